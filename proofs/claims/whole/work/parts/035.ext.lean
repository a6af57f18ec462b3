/-! ===== a call that has a part of the caller's world ===== -/
theorem ext_get (P w Q : va_W) (k : Nat) {q : Nat × va_E} (h : w[k]? = some q) : ((P ++ w) ++ Q)[P.length + k]? = some q := by
  have hk : k < w.length := (List.getElem?_eq_some_iff.mp h).1
  rw [List.getElem?_append_left (by rw [List.length_append]; omega), List.getElem?_append_right (by omega), Nat.add_sub_cancel_left]
  exact h
theorem ext_P {D : va_G} {cl : List vw_C} {P w Q : va_W} {H : Heap} (h : va_P D cl ((P ++ w) ++ Q) H) : va_P D cl w H := fun k q hk => h (P.length + k) q (ext_get P w Q k hk)
theorem ext_D {A : Nat → Prop} {P w Q : va_W} (h : va_D A ((P ++ w) ++ Q)) : va_D A w :=
  ⟨fun i j p q hi hj hpq => by have := h.1 _ _ p q (ext_get P w Q i hi) (ext_get P w Q j hj) hpq; omega, fun k q hk => h.2 _ q (ext_get P w Q k hk)⟩
theorem ext_A {A : Nat → Prop} {P w Q : va_W} {H0 H : Heap} {locs : List Loc} (hD : va_D A ((P ++ w) ++ Q)) (hS : va_S A H0 H locs) (hA : ∀ q, H0.size ≤ q → A q) : ∀ q, va_A w H.size q → A q := by
  intro q h
  rcases h with ⟨k, e, h⟩ | h
  · exact hD.2 _ (q, e) (ext_get P w Q k h)
  · exact hA q (Nat.le_trans hS.1 h)
theorem ext_join {A0 : Nat → Prop} {D : va_G} {cl : List vw_C} {P w w1 Q : va_W} {H H1 : Heap} (hP : va_P D cl ((P ++ w) ++ Q) H) (hD : va_D A0 ((P ++ w) ++ Q)) (hk : ∀ q : Nat, q < H.size → ¬ va_A w H.size q → H1[q]? = H[q]?) (hP1 : va_P D cl w1 H1) : va_P D cl ((P ++ w1) ++ Q) H1 := by
  have out : ∀ (i : Nat) (q : Nat × va_E), ((P ++ w) ++ Q)[i]? = some q → (i < P.length ∨ P.length + w.length ≤ i) → H1[q.1]? = H[q.1]? := by
    intro i q hi ho
    have hlt := (hP i q hi).lt
    refine hk q.1 hlt (fun h => ?_)
    rcases h with ⟨k2, e, h⟩ | h
    · have h2 := (List.getElem?_eq_some_iff.mp h).1
      have := hD.1 _ _ q (q.1, e) hi (ext_get P w Q k2 h) rfl
      omega
    · omega
  refine va_P.app (va_P.app (fun k q hq => ?_) hP1) (fun k q hq => ?_)
  · have hl := (List.getElem?_eq_some_iff.mp hq).1
    have hi : ((P ++ w) ++ Q)[k]? = some q := by rw [List.getElem?_append_left (by rw [List.length_append]; omega), List.getElem?_append_left hl]; exact hq
    exact (hP k q hi).kept (out k q hi (Or.inl hl))
  · have hi : ((P ++ w) ++ Q)[P.length + w.length + k]? = some q := by rw [List.getElem?_append_right (by rw [List.length_append]; omega), List.length_append, Nat.add_sub_cancel_left]; exact hq
    exact (hP _ q hi).kept (out _ q hi (Or.inr (by omega)))
section VEX
variable {σ τ : Type} {w : σ → va_W} {u : τ → va_W} {D : va_G} {tys : List (ClassId × FieldType)} {E : evT} {l : Launch} {Γ : cxT} {cc : ByteArray} {own : String} {Ts : List Cond} {nL : Nat} {R : Room} {st : σ} {su : τ} {cells slots pc : Nat} {lv : List (Nat × Value)} {rest : List Value} {P Q : va_W}
theorem Cx.preE (G : Cx w D tys E l Γ cc own Ts nL R) {H : Heap} {locs : List Loc} (hP : va_P D vwCl ((P ++ u su) ++ Q) H) (hD : va_D (xA Γ) ((P ++ u su) ++ Q)) (hS : va_S (xA Γ) (xH Γ) H locs) : ∀ U : State, U.heap = H → (xs Γ).WarmedH U.vm → CG u E D tys su H.size U := by
  intro U hU hW
  refine ⟨by rw [hU], by rw [hU]; exact ext_P hP, va_K.moved hW.alike G.K, (ext_D hD).weaken (fun _ _ _ _ => trivial), ?_⟩
  rw [hU]
  exact G.eo.1 _ _ _ _ hW (G.eo.2.2.2 _ _ _ _ (G.eo.2.2.1 _ _ _ _ G.ev (fun a h1 h2 => hS.2.1 a h1 h2)) (ext_A hD hS G.A))
theorem e_callVi (G : Cx w D tys E l Γ cc own Ts nL R) {y : MethodName} {bytes : ByteArray} {rt : FieldType} {maxL index : Nat} {ret : Option FieldType} {ws ws' : List Cond} {rm : Room} {C : String} {b : Nat} {post : Int32 → τ → Prop} {c2 s2 : Nat} {stk : List Value} (inj : τ → σ) (hemb : ∀ t, w (inj t) = (P ++ u t) ++ Q) (hst : st = inj su) (As : List Value) (hM : Ci l y ws rm u E D tys rt (.ref b :: As) su post) (hv : Rv w st b C) (hg : GoodIn Ts (wsV own index C y ws)) (hws : ws = Cond.code y bytes maxL ret :: ws') (hd : y.cls = C ∧ y.cls ≠ "java/lang/invoke/MethodHandle" ∧ y.cls ≠ "java/lang/invoke/VarHandle" ∧ (parseMethodDescriptor y.desc).map (fun d => d.parameters.length) = some As.length) (hR : rm.frames + 1 ≤ R.frames ∧ 8 + (maxL + 11) + rm.locals ≤ R.locals) (hrest : (rest.map fun v => v.category).sum ≤ 8) (hstk : stk = As.reverse ++ .ref b :: rest) (hc : c2 ≤ R.cells ∧ s2 ≤ R.slots) (hc2 : cells + rm.cells = c2) (hs2 : slots + rm.slots = s2) (d : decode cc pc = .ok (.invokevirtual index, 3)) (k : ∀ (r : Int32) (t2 : τ), post r t2 → narrow rt (.int r) = .int r → V w D Γ (inj t2) c2 s2 (pc + 3) lv (.int r :: rest)) : V w D Γ st cells slots pc lv stk := by
  subst hc2; subst hs2; subst hstk; subst hst
  intro H locs ls hl hP hS
  have hrv := hv.recv G hP
  have hD := G.hD (inj su)
  rw [hemb] at hP hD
  have hFA := ext_A hD hS G.A
  have hM1 := hM H.size
  rw [← G.hL] at hM1
  refine va_calli (va_runV (As := As) (rest := rest) ⟨G.hx, G.hb, G.ml, G.ow, G.ts⟩ hM1 (cwV As.length G.ts hg hws rfl rfl hd (by rw [G.hR]; exact hR)) ⟨CG_blind G.eo, hrv, fun U hU hW => ⟨rfl, G.preE hP hD hS U hU hW⟩⟩ rfl rfl (by rw [← G.n]; exact hl.1) rfl (lv_room hrest) d (by rw [G.hR]; exact hc)) hS (fun q _ h => hFA q h) hFA (fun r t2 t H1 locs1 ht hvm hw hB hz1 hk1 hS1 => k r t2 hw.1 hw.2 H1 locs1 ls hl (by rw [hemb]; exact ext_join hP hD hk1 (ht ▸ hB)) hS1)
theorem e_callVix (G : Cx w D tys E l Γ cc own Ts nL R) {y : MethodName} {bytes : ByteArray} {rt : FieldType} {maxL index : Nat} {ret : Option FieldType} {ws ws' : List Cond} {rm : Room} {C : String} {b : Nat} {post : Int32 → τ → Prop} {px : Nat → τ → Prop} {c2 s2 : Nat} {stk : List Value} (inj : τ → σ) (hemb : ∀ t, w (inj t) = (P ++ u t) ++ Q) (hst : st = inj su) (As : List Value) (hM : Xi l y ws rm u E D tys rt (.ref b :: As) su post px) (hv : Rv w st b C) (hg : GoodIn Ts (wsV own index C y ws)) (hws : ws = Cond.code y bytes maxL ret :: ws') (hd : y.cls = C ∧ y.cls ≠ "java/lang/invoke/MethodHandle" ∧ y.cls ≠ "java/lang/invoke/VarHandle" ∧ (parseMethodDescriptor y.desc).map (fun d => d.parameters.length) = some As.length) (hR : rm.frames + 1 ≤ R.frames ∧ 8 + (maxL + 11) + rm.locals ≤ R.locals) (hrest : (rest.map fun v => v.category).sum ≤ 8) (hstk : stk = As.reverse ++ .ref b :: rest) (hc : c2 ≤ R.cells ∧ s2 ≤ R.slots) (hc2 : cells + rm.cells = c2) (hs2 : slots + rm.slots = s2) (d : decode cc pc = .ok (.invokevirtual index, 3)) (kx : ∀ (e : Nat) (t2 : τ), px e t2 → VX w D Γ (inj t2) c2 s2 pc lv rest (exN e)) (k : ∀ (r : Int32) (t2 : τ), post r t2 → narrow rt (.int r) = .int r → V w D Γ (inj t2) c2 s2 (pc + 3) lv (.int r :: rest)) : V w D Γ st cells slots pc lv stk := by
  subst hc2; subst hs2; subst hstk; subst hst
  intro H locs ls hl hP hS
  have hrv := hv.recv G hP
  have hD := G.hD (inj su)
  rw [hemb] at hP hD
  have hFA := ext_A hD hS G.A
  have hM1 := hM H.size
  rw [← G.hL] at hM1
  refine vx_calli (vx_runV (As := As) (rest := rest) ⟨G.hx, G.hb, G.ml, G.ow, G.ts⟩ hM1 (cwV As.length G.ts hg hws rfl rfl hd (by rw [G.hR]; exact hR)) ⟨CG_blind G.eo, hrv, fun U hU hW => ⟨rfl, G.preE hP hD hS U hU hW⟩⟩ rfl rfl (by rw [← G.n]; exact hl.1) rfl (lv_room hrest) d (by rw [G.hR]; exact hc)) hS (fun q _ h => hFA q h) hFA (fun q _ h => hFA q h) (fun En ce q9 t2 t H1 locs1 ht hvm hw hB hz1 hk1 hS1 hce hcv hcl => by
    obtain ⟨rfl, hB⟩ := hB
    exact kx t2.1 t2.2 hw H1 locs1 ls q9 ce hl (by rw [hemb]; exact ext_join hP hD hk1 (ht ▸ hB)) hS1 hce hcv hcl) (fun r t2 t H1 locs1 ht hvm hw hB hz1 hk1 hS1 => k r t2 hw.1 hw.2 H1 locs1 ls hl (by rw [hemb]; exact ext_join hP hD hk1 (ht ▸ hB)) hS1)
theorem e_callVv (G : Cx w D tys E l Γ cc own Ts nL R) {y : MethodName} {bytes : ByteArray} {maxL index : Nat} {ret : Option FieldType} {ws ws' : List Cond} {rm : Room} {C : String} {b : Nat} {post : τ → Prop} {c2 s2 : Nat} {stk : List Value} (inj : τ → σ) (hemb : ∀ t, w (inj t) = (P ++ u t) ++ Q) (hst : st = inj su) (As : List Value) (hM : Cv l y ws rm u E D tys (.ref b :: As) su post) (hv : Rv w st b C) (hg : GoodIn Ts (wsV own index C y ws)) (hws : ws = Cond.code y bytes maxL ret :: ws') (hd : y.cls = C ∧ y.cls ≠ "java/lang/invoke/MethodHandle" ∧ y.cls ≠ "java/lang/invoke/VarHandle" ∧ (parseMethodDescriptor y.desc).map (fun d => d.parameters.length) = some As.length) (hR : rm.frames + 1 ≤ R.frames ∧ 8 + (maxL + 11) + rm.locals ≤ R.locals) (hrest : (rest.map fun v => v.category).sum ≤ 8) (hstk : stk = As.reverse ++ .ref b :: rest) (hc : c2 ≤ R.cells ∧ s2 ≤ R.slots) (hc2 : cells + rm.cells = c2) (hs2 : slots + rm.slots = s2) (d : decode cc pc = .ok (.invokevirtual index, 3)) (k : ∀ (t2 : τ), post t2 → V w D Γ (inj t2) c2 s2 (pc + 3) lv rest) : V w D Γ st cells slots pc lv stk := by
  subst hc2; subst hs2; subst hstk; subst hst
  intro H locs ls hl hP hS
  have hrv := hv.recv G hP
  have hD := G.hD (inj su)
  rw [hemb] at hP hD
  have hFA := ext_A hD hS G.A
  have hM1 := hM H.size
  rw [← G.hL] at hM1
  refine va_callv (va_runV (As := As) (rest := rest) ⟨G.hx, G.hb, G.ml, G.ow, G.ts⟩ hM1 (cwV As.length G.ts hg hws rfl rfl hd (by rw [G.hR]; exact hR)) ⟨CG_blind G.eo, hrv, fun U hU hW => ⟨rfl, G.preE hP hD hS U hU hW⟩⟩ rfl rfl (by rw [← G.n]; exact hl.1) rfl (lv_room hrest) d (by rw [G.hR]; exact hc)) hS (fun q _ h => hFA q h) hFA (fun t2 t H1 locs1 ht hvm hw hB hz1 hk1 hS1 => k t2 hw H1 locs1 ls hl (by rw [hemb]; exact ext_join hP hD hk1 (ht ▸ hB)) hS1)
theorem e_callVvx (G : Cx w D tys E l Γ cc own Ts nL R) {y : MethodName} {bytes : ByteArray} {maxL index : Nat} {ret : Option FieldType} {ws ws' : List Cond} {rm : Room} {C : String} {b : Nat} {post : τ → Prop} {px : Nat → τ → Prop} {c2 s2 : Nat} {stk : List Value} (inj : τ → σ) (hemb : ∀ t, w (inj t) = (P ++ u t) ++ Q) (hst : st = inj su) (As : List Value) (hM : Xv l y ws rm u E D tys (.ref b :: As) su post px) (hv : Rv w st b C) (hg : GoodIn Ts (wsV own index C y ws)) (hws : ws = Cond.code y bytes maxL ret :: ws') (hd : y.cls = C ∧ y.cls ≠ "java/lang/invoke/MethodHandle" ∧ y.cls ≠ "java/lang/invoke/VarHandle" ∧ (parseMethodDescriptor y.desc).map (fun d => d.parameters.length) = some As.length) (hR : rm.frames + 1 ≤ R.frames ∧ 8 + (maxL + 11) + rm.locals ≤ R.locals) (hrest : (rest.map fun v => v.category).sum ≤ 8) (hstk : stk = As.reverse ++ .ref b :: rest) (hc : c2 ≤ R.cells ∧ s2 ≤ R.slots) (hc2 : cells + rm.cells = c2) (hs2 : slots + rm.slots = s2) (d : decode cc pc = .ok (.invokevirtual index, 3)) (kx : ∀ (e : Nat) (t2 : τ), px e t2 → VX w D Γ (inj t2) c2 s2 pc lv rest (exN e)) (k : ∀ (t2 : τ), post t2 → V w D Γ (inj t2) c2 s2 (pc + 3) lv rest) : V w D Γ st cells slots pc lv stk := by
  subst hc2; subst hs2; subst hstk; subst hst
  intro H locs ls hl hP hS
  have hrv := hv.recv G hP
  have hD := G.hD (inj su)
  rw [hemb] at hP hD
  have hFA := ext_A hD hS G.A
  have hM1 := hM H.size
  rw [← G.hL] at hM1
  refine vx_callv (vx_runV (As := As) (rest := rest) ⟨G.hx, G.hb, G.ml, G.ow, G.ts⟩ hM1 (cwV As.length G.ts hg hws rfl rfl hd (by rw [G.hR]; exact hR)) ⟨CG_blind G.eo, hrv, fun U hU hW => ⟨rfl, G.preE hP hD hS U hU hW⟩⟩ rfl rfl (by rw [← G.n]; exact hl.1) rfl (lv_room hrest) d (by rw [G.hR]; exact hc)) hS (fun q _ h => hFA q h) hFA (fun q _ h => hFA q h) (fun En ce q9 t2 t H1 locs1 ht hvm hw hB hz1 hk1 hS1 hce hcv hcl => by
    obtain ⟨rfl, hB⟩ := hB
    exact kx t2.1 t2.2 hw H1 locs1 ls q9 ce hl (by rw [hemb]; exact ext_join hP hD hk1 (ht ▸ hB)) hS1 hce hcv hcl) (fun t2 t H1 locs1 ht hvm hw hB hz1 hk1 hS1 => k t2 hw H1 locs1 ls hl (by rw [hemb]; exact ext_join hP hD hk1 (ht ▸ hB)) hS1)
/-- an exception that the row x of the table takes, past rows that name other classes -/
theorem r_catch (G : Cx w D tys E l Γ cc own Ts nL R) {k : Nat} {name : String} (pre : List ExceptionTableEntry) (x : ExceptionTableEntry) (suf : List ExceptionTableEntry) (hsplit : (xc Γ).exceptionTable.toList = pre ++ x :: suf)
    (hpass : ∀ z ∈ pre, covers z pc = false ∨ (z.catchType ≠ 0 ∧ ∃ nm : String, Cond.classLink own z.catchType nm ∈ Ts ∧ va_Nc (exN k) nm (xs Γ))) (hx : covers x pc = true) (h0 : x.catchType ≠ 0) (hlink : Cond.classLink own x.catchType name ∈ Ts) (hcast : va_Nw (.castable (exN k) name) (xs Γ))
    (kk : ∀ q : Nat, V w D Γ st cells slots x.handlerPc lv [.ref q]) : VX w D Γ st cells slots pc lv rest (exN k) := by
  intro H locs ls q ce hl hP hS hq hv hcl
  exact vx_catch G.ow pre x suf hsplit (fun z hz => (hpass z hz).imp_right (fun h => ⟨h.1, h.2.imp (fun nm h => ⟨G.ts _ h.1, h.2⟩)⟩)) hx h0 (G.ts _ hlink) (va_Nw.use rfl hcast) hq hv hcl (kk q H locs ls hl hP hS)
end VEX
