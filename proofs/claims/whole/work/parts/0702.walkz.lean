/-! ===== a method that answers a new object beside its world ===== -/
def Cn {σ : Type} (l : Launch) (y : MethodName) (ws : List Cond) (rm : Room) (w : σ → va_W) (E : evT) (D : va_G) (tys : List (ClassId × FieldType)) (As : List Value) (st : σ) (e : va_E) : Prop :=
  ∀ sz : Nat, Met l y ws rm (va_Pc As (CG w E D tys st sz)) (va_Qr (fun u : Nat => sz ≤ u) (fun u a t => a = u ∧ va_P D vwCl (w st ++ [(u, e)]) t.heap) (va_A (w st) sz)) rm.cells rm.slots (va_A (w st) sz)
theorem s_n {σ : Type} {w : σ → va_W} {D : va_G} {tys : List (ClassId × FieldType)} {E : evT} {l : Launch} {y : MethodName} {ws ws' : List Cond} {rm : Room} {cc : ByteArray} {nL : Nat} {own : String} {As : List Value} {st : σ} {C : String} {e0 : va_E} (hE : EvOk E) (hw : WA w) (hy : plainName y.cls = true) (how : y.cls = own) (hws : ws = Cond.code y cc nL (some (.object C)) :: ws') (hlen : (lg_sl As).length ≤ nL)
    (body : ∀ Γ : cxT, Cx w D tys E l Γ cc own ws nL rm → (∀ (q : Nat) (cells slots pc : Nat) (lv : List (Nat × Value)), decode cc pc = .ok (.areturn, 1) → Cx (kw (w st ++ [(q, e0)])) D tys E l Γ cc own ws nL rm → cells ≤ rm.cells → slots ≤ rm.slots → V (kw (w st ++ [(q, e0)])) D Γ () cells slots pc lv [.ref q]) → V w D Γ st 0 0 0 (lv_args 0 As) []) : Cn l y ws rm w E D tys As st e0 := by
  intro sz
  refine Met.ofW (cc := cc) (maxL := nL) (ret := some (.object C)) hy hws ?_
  intro p e s m args below meth c s₁ B hml hv
  obtain ⟨rfl, hsz, hP, hK, hD0, hEv⟩ := hv
  have hts := atoms_spec (ws := ws) B.pre
  have hown : s.vm.findClass own = some m.cls := by rw [← how]; exact findClass_of_methodNamed B.named
  subst hsz
  have hD : va_D (va_A (w st) s.heap.size) (w st) := hD0.self
  have hl := lv_entry As (n := nL) hlen
  rw [lg_entry_eq]
  exact body (p, l, e, rm, s, m, As.toArray, below, meth, c, va_A (w st) s.heap.size, s.heap, MQ below (va_Qr (fun u : Nat => s.heap.size ≤ u) (fun u a t => a = u ∧ va_P D vwCl (w st ++ [(u, e0)]) t.heap) (va_A (w st) s.heap.size)) As.toArray s rm.cells rm.slots (va_A (w st) s.heap.size), nL)
    ⟨B.exec, B.bytes, hts, hown, hK, ⟨hml, rfl⟩, fun q h => Or.inr h, fun st' => WA_D hw hD st', rfl, rfl, rfl, hE, hEv⟩
    (fun q cells slots pc lv d G1 hc hs H locs ls _ hP2 hS => W.widen hc hs (W.aret B.exec B.bytes B.returns (Or.inl ⟨C, rfl⟩) (Or.inr ⟨q, rfl⟩) (fun t ht hW => ⟨⟨q, q, rfl, by
      have h1 : (w st ++ [(q, e0)])[(w st).length]? = some (q, e0) := by rw [List.getElem?_append_right (Nat.le_refl _), Nat.sub_self]; rfl
      rcases (G1.hD ()).2 _ _ h1 with ⟨k, e9, hk⟩ | h
      · have hlt := (List.getElem?_eq_some_iff.mp hk).1
        have h2 : (w st ++ [(q, e0)])[k]? = some (q, e9) := by rw [List.getElem?_append_left hlt]; exact hk
        have := (G1.hD ()).1 k (w st).length _ _ h2 h1 rfl
        omega
      · exact h, rfl, by rw [ht]; exact hP2⟩, hS.F ht⟩) hS.2.2 d B.notSynchronized))
    s.heap [] _ hl hP va_S.rf
section VNC
variable {σ : Type} {w : σ → va_W} {D : va_G} {tys : List (ClassId × FieldType)} {E : evT} {l : Launch} {Γ : cxT} {cc : ByteArray} {own : String} {Ts : List Cond} {nL : Nat} {R : Room} {st : σ} {cells slots pc : Nat} {lv : List (Nat × Value)} {rest : List Value}
theorem r_callVn (G : Cx w D tys E l Γ cc own Ts nL R) {y : MethodName} {bytes : ByteArray} {maxL index : Nat} {ret : Option FieldType} {ws ws' : List Cond} {rm : Room} {C : String} {b : Nat} {e0 : va_E} {c2 s2 : Nat} {stk : List Value} (As : List Value) (hM : Cn l y ws rm w E D tys (.ref b :: As) st e0) (hv : Rv w st b C) (hg : GoodIn Ts (wsV own index C y ws)) (hws : ws = Cond.code y bytes maxL ret :: ws') (hd : y.cls = C ∧ y.cls ≠ "java/lang/invoke/MethodHandle" ∧ y.cls ≠ "java/lang/invoke/VarHandle" ∧ (parseMethodDescriptor y.desc).map (fun d => d.parameters.length) = some As.length) (hR : rm.frames + 1 ≤ R.frames ∧ 8 + (maxL + 11) + rm.locals ≤ R.locals) (hrest : (rest.map fun v => v.category).sum ≤ 8) (hstk : stk = As.reverse ++ .ref b :: rest) (hc : c2 ≤ R.cells ∧ s2 ≤ R.slots) (hc2 : cells + rm.cells = c2) (hs2 : slots + rm.slots = s2) (d : decode cc pc = .ok (.invokevirtual index, 3)) (k : ∀ q : Nat, Cx (kw (w st ++ [(q, e0)])) D tys E l Γ cc own Ts nL R → V (kw (w st ++ [(q, e0)])) D Γ () c2 s2 (pc + 3) lv (.ref q :: rest)) : V w D Γ st cells slots pc lv stk := by
  subst hc2; subst hs2; subst hstk
  intro H locs ls hl hP hS
  have hFA := G.free hS st
  have hM1 := hM H.size
  rw [← G.hL] at hM1
  refine va_callr (va_runV (As := As) (rest := rest) ⟨G.hx, G.hb, G.ml, G.ow, G.ts⟩ hM1 (cwV As.length G.ts hg hws rfl rfl hd (by rw [G.hR]; exact hR)) ⟨CG_blind G.eo, hv.recv G hP, fun U hU hW => ⟨rfl, G.pre hP hS U hU hW⟩⟩ rfl rfl (by rw [← G.n]; exact hl.1) rfl (lv_room hrest) d (by rw [G.hR]; exact hc)) hS (fun q _ h => hFA q h) hFA (fun u ra t H1 locs1 ht hvm hw hB hz1 hk1 hS1 => by
    obtain ⟨rfl, hB⟩ := hB
    have hD1 : va_D (xA Γ) (w st ++ [(ra, e0)]) := by
      refine va_D.app (G.hD st) ⟨fun i j p q hi hj _ => ?_, fun k q hk => ?_⟩ (fun i j p q hi hj hpq => ?_)
      · have := (List.getElem?_eq_some_iff.mp hi).1
        have := (List.getElem?_eq_some_iff.mp hj).1
        simp at *
        omega
      · have h2 := (List.getElem?_eq_some_iff.mp hk).1
        have h3 : k = 0 := by simp at h2; exact h2
        subst h3
        have h4 : q = (ra, e0) := (Option.some.inj hk).symm
        rw [h4]
        exact G.A _ (Nat.le_trans hS.1 hw)
      · have h2 := (List.getElem?_eq_some_iff.mp hj).1
        have h3 : j = 0 := by simp at h2; exact h2
        subst h3
        have h4 : q = (ra, e0) := (Option.some.inj hj).symm
        rw [h4] at hpq
        have h5 := (hP i p hi).lt
        have h6 : p.1 = ra := hpq
        omega
    exact k ra (G.world (fun _ => hD1)) H1 locs1 ls hl (ht ▸ hB) hS1)
end VNC
/-! ===== the walk's constructor, and View.walk ===== -/
set_option maxRecDepth 20000 in
theorem kX6_init_X6 : ∀ w ∈ u_ws RX6 TX6 4, w ∈ wsX6_init := by decide +kernel
abbrev rmX6_init : Room := { frames := 1, cells := 0, slots := 0, locals := 20 }
set_option maxRecDepth 20000 in
theorem mX6_init_1 : Cond.methodLink RX6 3 Lib.objectInit ∈ wsX6_init := by decide +kernel
set_option maxRecDepth 20000 in
theorem mX6_init_2 : Cond.instanceMethod Lib.objectInit ∈ wsX6_init := by decide +kernel
set_option maxRecDepth 20000 in
theorem mX6_init_3 : Cond.code Lib.objectInit ⟨#[0xb1]⟩ 1 none ∈ wsX6_init := by decide +kernel
set_option maxRecDepth 20000 in
theorem mX6_init_9 : Cond.fieldLink RX6 9 "SetCouncil$Walk" "through" "LSetCouncil$MemberSet;" ∈ wsX6_init := by decide +kernel
set_option maxRecDepth 20000 in
theorem mX6_init_15 : Cond.fieldLink RX6 15 "SetCouncil$Walk" "mayTakeOut" "Z" ∈ wsX6_init := by decide +kernel
set_option maxRecDepth 20000 in
theorem mX6_init_19 : Cond.fieldLink RX6 19 "SetCouncil$Walk" "next" "I" ∈ wsX6_init := by decide +kernel
set_option maxRecDepth 20000 in
theorem mX6_init_23 : Cond.fieldLink RX6 23 "SetCouncil$Walk" "last" "I" ∈ wsX6_init := by decide +kernel
theorem qX6_init {E : evT} {l : Launch} {D : va_G} {κ : Nat → ClassId} {q a1 : Nat} {m : Int32} (hE : EvOk E) (hm : narrow .boolean (.int m) = .int m) (hm2 : fits .boolean (.int m) = true) : Cz l yX6_init wsX6_init rmX6_init E D (tyA κ) [.ref q, .ref a1, .int m] [(q, .inr (6, [.null, .int 0, .int 0, .int 0]))] (fun w1 => w1 = [(q, .inr (6, [.ref a1, .int m, .int 0, .int (-1)]))]) := by
  refine s_z (cc := cX6_init) (nL := 3) (own := RX6) hE (by decide) rfl rfl rfl (Nat.le_of_ble_eq_true rfl) (fun Γ G hn hret => ?_)
  refine r_aload_n G 0 rfl rfl dX6_init_0 ?_
  refine r_objInit G mX6_init_1 mX6_init_2 mX6_init_3 (Nat.le_of_ble_eq_true rfl) (Nat.le_of_ble_eq_true rfl) dX6_init_1 ?_
  refine r_aload_n G 0 rfl rfl dX6_init_4 ?_
  refine r_aload_n G 1 rfl rfl dX6_init_5 ?_
  refine z_putF G (C := RX6) (T := TX6) (N := 4) (ws2 := [(q, .inr (6, [.ref a1, .int 0, .int 0, .int 0]))]) kX6_init_X6 tyX6 tyX6_ok nmX6 hn 0 rfl rfl 0 (by decide) mX6_init_9 rfl rfl rfl (tyX6_ok 0 (by decide)) rfl rfl (Nat.le_of_ble_eq_true rfl) rfl dX6_init_6 (fun G => ?_)
  refine r_aload_n G 0 rfl rfl dX6_init_9 ?_
  refine r_iload_n G 2 rfl rfl dX6_init_10 ?_
  refine z_putF G (C := RX6) (T := TX6) (N := 4) (ws2 := [(q, .inr (6, [.ref a1, .int m, .int 0, .int 0]))]) kX6_init_X6 tyX6 tyX6_ok nmX6 hn 0 rfl rfl 1 (by decide) mX6_init_15 rfl rfl rfl (tyX6_ok 1 (by decide)) hm hm2 (Nat.le_of_ble_eq_true rfl) rfl dX6_init_11 (fun G => ?_)
  refine r_aload_n G 0 rfl rfl dX6_init_14 ?_
  refine r_iconst G (v := 0) (by decide) dX6_init_15 ?_
  refine z_put G (C := RX6) (T := TX6) (N := 4) (ws2 := [(q, .inr (6, [.ref a1, .int m, .int 0, .int 0]))]) kX6_init_X6 tyX6 tyX6_ok nmX6 0 rfl rfl 2 (by decide) mX6_init_19 rfl rfl (tyX6_ok 2 (by decide)) rfl rfl (Nat.le_of_ble_eq_true rfl) rfl dX6_init_16 (fun G => ?_)
  refine r_aload_n G 0 rfl rfl dX6_init_19 ?_
  refine r_iconst G (v := (-1)) (by decide) dX6_init_20 ?_
  refine z_put G (C := RX6) (T := TX6) (N := 4) (ws2 := [(q, .inr (6, [.ref a1, .int m, .int 0, .int (-1)]))]) kX6_init_X6 tyX6 tyX6_ok nmX6 0 rfl rfl 3 (by decide) mX6_init_23 rfl rfl (tyX6_ok 3 (by decide)) rfl rfl (Nat.le_of_ble_eq_true rfl) rfl dX6_init_21 (fun G => ?_)
  exact hret _ _ _ _ _ dX6_init_24 G rfl (Nat.le_of_ble_eq_true rfl) (Nat.le_of_ble_eq_true rfl)
