/-! ===== worlds that are one list: for what makes objects ===== -/
abbrev kw (ws : va_W) : Unit → va_W := fun _ => ws
section VZO
variable {σ : Type} {w : σ → va_W} {D : va_G} {tys : List (ClassId × FieldType)} {E : evT} {l : Launch} {Γ : cxT} {cc : ByteArray} {own : String} {Ts : List Cond} {nL : Nat} {R : Room} {st : σ} {cells slots pc : Nat} {lv : List (Nat × Value)} {rest : List Value}
theorem Cx.world (G : Cx w D tys E l Γ cc own Ts nL R) {τ : Type} {u : τ → va_W} (h : ∀ st, va_D (xA Γ) (u st)) : Cx u D tys E l Γ cc own Ts nL R :=
  ⟨G.hx, G.hb, G.ts, G.ow, G.K, ⟨G.ml, G.n⟩, G.A, h, G.hR, G.H, G.hL, G.eo, G.ev⟩
theorem Cx.of_kw {τ : Type} {u : τ → va_W} (hu : WA u) {t : τ} (G : Cx (kw (u t)) D tys E l Γ cc own Ts nL R) : Cx u D tys E l Γ cc own Ts nL R := G.world (fun t2 => WA_D hu (G.hD ()) t2)
theorem z_new (G : Cx w D tys E l Γ cc own Ts nL R) {C : String} {T : u_T} {N ci index : Nat} {fs : List Value} (hin : ∀ w ∈ u_ws C T N, w ∈ Ts) (ty : Nat → FieldType) (hty : ∀ k, k < N → parseFieldDescriptor (T k).2.2.1 = some (ty k)) (hcl : Cond.classLink own index C ∈ Ts) (hinst : Cond.instantiable C N ∈ Ts) (hini : Cond.initialized C ∈ Ts) (hc : vwCl[ci]? = some (C, T, N)) (hfs : ∀ j, j < N → defaultValue (ty j) = vp_V fs j) (hcells : cells + 1 ≤ R.cells) (hslots : slots + N ≤ R.slots) (d : decode cc pc = .ok (.new index, 3))
    (k : ∀ q : Nat, Cx (kw (w st ++ [(q, .inr (ci, fs))])) D tys E l Γ cc own Ts nL R → V (kw (w st ++ [(q, .inr (ci, fs))])) D Γ () (cells + 1) (slots + N) (pc + 3) lv (.ref q :: rest)) : V w D Γ st cells slots pc lv rest := by
  intro H locs ls hl hP hS
  refine va_new G.hx G.hb G.ts hin ty hty G.ow (G.ts _ hcl) (G.ts _ hinst) (G.ts _ hini) G.K hP (G.hD st) hS G.A hc hfs (by rw [G.hR]; exact hcells) (by rw [G.hR]; exact hslots) d (fun q H1 hP1 hD1 hS1 => ?_)
  exact k q (G.world (fun _ => hD1)) H1 locs ls hl hP1 hS1
theorem z_put (G : Cx w D tys E l Γ cc own Ts nL R) {ref C : String} {T : u_T} {N ci index a : Nat} {fs : List Value} {v : Value} {ws2 : va_W} (hin : ∀ w ∈ u_ws C T N, w ∈ Ts) (ty0 : Nat → FieldType) (hty : ∀ k, k < N → parseFieldDescriptor (T k).2.2.1 = some (ty0 k)) (hnm : ∀ a, a < N → ∀ b, b < N → a ≠ b → (T a).2.1 ≠ (T b).2.1) (q0 : Nat) (he : (w st)[q0]? = some (a, .inr (ci, fs))) (hc : vwCl[ci]? = some (C, T, N)) (j : Nat) (hj : j < N) (hlink : Cond.fieldLink own index ref (T j).2.1 (T j).2.2.1 ∈ Ts) (hsame : (T j).1 = ref) (hfin : (T j).2.2.2 = false) {ty : FieldType} (hd : parseFieldDescriptor (T j).2.2.1 = some ty) (hnar : narrow ty v = v) (hfit : fits ty v = true) (hlen : j < fs.length) (hset : (w st).set q0 (a, .inr (ci, fs.set j v)) = ws2) (d : decode cc pc = .ok (.putfield index, 3)) (k : Cx (kw ws2) D tys E l Γ cc own Ts nL R → V (kw ws2) D Γ () cells slots (pc + 3) lv rest) : V w D Γ st cells slots pc lv (v :: .ref a :: rest) := fun H locs ls hl hP hS => va_put G.hx G.hb G.ts hin ty0 hty hnm G.ow G.K hP (G.hD st) hS q0 he hc j hj (G.ts _ hlink) (fun _ h9 => by rw [← hsame]; exact h9) hfin hd hnar hfit hlen d (fun H1 locs1 hP1 hD1 hS1 => by
    rw [hset] at hP1 hD1
    exact k (G.world (fun _ => hD1)) H1 locs1 ls hl hP1 hS1)
theorem z_putF (G : Cx w D tys E l Γ cc own Ts nL R) {ref C : String} {T : u_T} {N ci index a : Nat} {fs : List Value} {v : Value} {ws2 : va_W} (hin : ∀ w ∈ u_ws C T N, w ∈ Ts) (ty0 : Nat → FieldType) (hty : ∀ k, k < N → parseFieldDescriptor (T k).2.2.1 = some (ty0 k)) (hnm : ∀ a, a < N → ∀ b, b < N → a ≠ b → (T a).2.1 ≠ (T b).2.1) (hname : (xt Γ).name = "<init>") (q0 : Nat) (he : (w st)[q0]? = some (a, .inr (ci, fs))) (hc : vwCl[ci]? = some (C, T, N)) (j : Nat) (hj : j < N) (hlink : Cond.fieldLink own index ref (T j).2.1 (T j).2.2.1 ∈ Ts) (hsame : (T j).1 = ref) (hfin : (T j).2.2.2 = true) (hdecl : (T j).1 = own) {ty : FieldType} (hd : parseFieldDescriptor (T j).2.2.1 = some ty) (hnar : narrow ty v = v) (hfit : fits ty v = true) (hlen : j < fs.length) (hset : (w st).set q0 (a, .inr (ci, fs.set j v)) = ws2) (d : decode cc pc = .ok (.putfield index, 3)) (k : Cx (kw ws2) D tys E l Γ cc own Ts nL R → V (kw ws2) D Γ () cells slots (pc + 3) lv rest) : V w D Γ st cells slots pc lv (v :: .ref a :: rest) := fun H locs ls hl hP hS => va_putF G.hx G.hb G.ts hin ty0 hty hnm G.ow G.K hP (G.hD st) hS q0 he hc j hj (G.ts _ hlink) (fun _ h9 => by rw [← hsame]; exact h9) hfin hname hdecl hd hnar hfit hlen d (fun H1 locs1 hP1 hD1 hS1 => by
    rw [hset] at hP1 hD1
    exact k (G.world (fun _ => hD1)) H1 locs1 ls hl hP1 hS1)
theorem r_objInit (G : Cx w D tys E l Γ cc own Ts nL R) {idx a : Nat} (hlink : Cond.methodLink own idx Lib.objectInit ∈ Ts) (hinst : Cond.instanceMethod Lib.objectInit ∈ Ts) (hcode : Cond.code Lib.objectInit ⟨#[0xb1]⟩ 1 none ∈ Ts) (hf : 1 ≤ R.frames) (hl9 : (rest.map fun v => v.category).sum + 12 ≤ R.locals) (d : decode cc pc = .ok (.invokespecial idx, 3)) (k : V w D Γ st cells slots (pc + 3) lv rest) : V w D Γ st cells slots pc lv (.ref a :: rest) := fun H locs ls hl hP hS =>
  W.objInit G.hx G.hb G.ow (G.ts _ hlink) (G.ts _ hinst) (G.ts _ hcode) rfl (by rw [G.ml, ← G.n]; exact hl.1) rfl d (by rw [G.hR]; exact hf) (by rw [G.hR]; show 2 * 0 + _ + 12 ≤ _; omega) (k H locs ls hl hP hS)
theorem ext_joinD {A0 : Nat → Prop} {D : va_G} {cl : List vw_C} {P w0 w1 Q : va_W} {H : Heap} (hP : va_P D cl ((P ++ w0) ++ Q) H) (hD : va_D A0 ((P ++ w0) ++ Q)) (hF : ∀ q, va_A w0 H.size q → A0 q) (hD1 : va_D (va_A w0 H.size) w1) : va_D A0 ((P ++ w1) ++ Q) := by
  have out : ∀ (i : Nat) (q : Nat × va_E), ((P ++ w0) ++ Q)[i]? = some q → (i < P.length ∨ P.length + w0.length ≤ i) → ¬ va_A w0 H.size q.1 := by
    intro i q hi ho h
    have hlt := (hP i q hi).lt
    rcases h with ⟨k2, e, h⟩ | h
    · have h2 := (List.getElem?_eq_some_iff.mp h).1
      have := hD.1 _ _ q (q.1, e) hi (ext_get P w0 Q k2 h) rfl
      omega
    · omega
  have atP : ∀ (k : Nat) (q : Nat × va_E), P[k]? = some q → k < P.length ∧ ((P ++ w0) ++ Q)[k]? = some q := fun k q hq => by
    have hl := (List.getElem?_eq_some_iff.mp hq).1
    refine ⟨hl, ?_⟩
    rw [List.getElem?_append_left (by rw [List.length_append]; omega), List.getElem?_append_left hl]; exact hq
  have atQ : ∀ (k : Nat) (q : Nat × va_E), Q[k]? = some q → ((P ++ w0) ++ Q)[P.length + w0.length + k]? = some q := fun k q hq => by
    rw [List.getElem?_append_right (by rw [List.length_append]; omega), List.length_append, Nat.add_sub_cancel_left]; exact hq
  have hDP : va_D A0 P := ⟨fun i j p q hi hj hpq => hD.1 i j p q (atP i p hi).2 (atP j q hj).2 hpq, fun k q hq => hD.2 k q (atP k q hq).2⟩
  have hDQ : va_D A0 Q := ⟨fun i j p q hi hj hpq => by have := hD.1 _ _ p q (atQ i p hi) (atQ j q hj) hpq; omega, fun k q hq => hD.2 _ q (atQ k q hq)⟩
  have hDPw : va_D A0 (P ++ w1) := va_D.app hDP (hD1.weaken (fun _ q _ h => hF q.1 h)) (fun i j p q hi hj hpq => out i p (atP i p hi).2 (Or.inl (atP i p hi).1) (by rw [hpq]; exact hD1.2 j q hj))
  refine va_D.app hDPw hDQ (fun i j p q hi hj hpq => ?_)
  by_cases c : i < P.length
  · rw [List.getElem?_append_left c] at hi
    have := hD.1 _ _ p q (atP i p hi).2 (atQ j q hj) hpq
    omega
  · rw [List.getElem?_append_right (by omega)] at hi
    exact out _ q (atQ j q hj) (Or.inr (by omega)) (by rw [← hpq]; exact hD1.2 _ p hi)
end VZO
/-- a constructor, over the world of its own cell: what it makes of it -/
def Cz (l : Launch) (y : MethodName) (ws : List Cond) (rm : Room) (E : evT) (D : va_G) (tys : List (ClassId × FieldType)) (As : List Value) (w0 : va_W) (post : va_W → Prop) : Prop :=
  ∀ sz : Nat, Met l y ws rm (va_Pc As (CG (kw w0) E D tys () sz)) (va_Qv post (fun w1 t => va_P D vwCl w1 t.heap ∧ va_D (va_A w0 sz) w1) (va_A w0 sz)) rm.cells rm.slots (va_A w0 sz)
theorem s_z {D : va_G} {tys : List (ClassId × FieldType)} {E : evT} {l : Launch} {y : MethodName} {ws ws' : List Cond} {rm : Room} {cc : ByteArray} {nL : Nat} {own : String} {As : List Value} {w0 : va_W} {post : va_W → Prop} (hE : EvOk E) (hy : plainName y.cls = true) (how : y.cls = own) (hyn : y.name = "<init>") (hws : ws = Cond.code y cc nL none :: ws') (hlen : (lg_sl As).length ≤ nL)
    (body : ∀ Γ : cxT, Cx (kw w0) D tys E l Γ cc own ws nL rm → (xt Γ).name = "<init>" → (∀ (w1 : va_W) (cells slots pc : Nat) (lv : List (Nat × Value)), decode cc pc = .ok (.return_, 1) → Cx (kw w1) D tys E l Γ cc own ws nL rm → post w1 → cells ≤ rm.cells → slots ≤ rm.slots → V (kw w1) D Γ () cells slots pc lv []) → V (kw w0) D Γ () 0 0 0 (lv_args 0 As) []) : Cz l y ws rm E D tys As w0 post := by
  intro sz
  refine Met.ofW (cc := cc) (maxL := nL) (ret := none) hy hws ?_
  intro p e s m args below meth c s₁ B hml hv
  obtain ⟨rfl, hsz, hP, hK, hD0, hEv⟩ := hv
  have hts := atoms_spec (ws := ws) B.pre
  have hown : s.vm.findClass own = some m.cls := by rw [← how]; exact findClass_of_methodNamed B.named
  have hin : meth.name = "<init>" := by rw [← hyn]; exact (name_of_methodNamed B.named B.method).1
  subst hsz
  have hD : va_D (va_A w0 s.heap.size) w0 := hD0.self
  have hl := lv_entry As (n := nL) hlen
  rw [lg_entry_eq]
  exact body (p, l, e, rm, s, m, As.toArray, below, meth, c, va_A w0 s.heap.size, s.heap, MQ below (va_Qv post (fun w1 t => va_P D vwCl w1 t.heap ∧ va_D (va_A w0 s.heap.size) w1) (va_A w0 s.heap.size)) As.toArray s rm.cells rm.slots (va_A w0 s.heap.size), nL)
    ⟨B.exec, B.bytes, hts, hown, hK, ⟨hml, rfl⟩, fun q h => Or.inr h, fun _ => hD, rfl, rfl, rfl, hE, hEv⟩ hin
    (fun w1 cells slots pc lv d G1 hp hc hs H locs ls _ hP2 hS => W.widen hc hs (W.vret B.exec B.bytes B.returns (fun t ht hW => ⟨⟨w1, rfl, hp, by show va_P D vwCl w1 t.heap; rw [ht]; exact hP2, G1.hD ()⟩, hS.F ht⟩) hS.2.2 d B.notSynchronized))
    s.heap [] _ hl hP va_S.rf
section VZC
variable {σ : Type} {w : σ → va_W} {D : va_G} {tys : List (ClassId × FieldType)} {E : evT} {l : Launch} {Γ : cxT} {cc : ByteArray} {own : String} {Ts : List Cond} {nL : Nat} {R : Room} {st : σ} {cells slots pc : Nat} {lv : List (Nat × Value)} {rest : List Value}
theorem z_callI (G : Cx w D tys E l Γ cc own Ts nL R) {y : MethodName} {bytes : ByteArray} {maxL index : Nat} {ws ws' : List Cond} {rm : Room} {b : Nat} {P Q w0 : va_W} {post : va_W → Prop} {c2 s2 : Nat} {stk : List Value} (hemb : w st = (P ++ w0) ++ Q) (As : List Value) (hM : Cz l y ws rm E D tys (.ref b :: As) w0 post) (hg : GoodIn Ts ws) (hws : ws = Cond.code y bytes maxL none :: ws') (hini : Cond.initialized y.cls ∈ Ts) (hlink : Cond.methodLink own index y ∈ Ts) (hin : Cond.instanceMethod y ∈ Ts) (hyn : y.name = "<init>") (hd : y.cls ≠ "java/lang/invoke/MethodHandle" ∧ y.cls ≠ "java/lang/invoke/VarHandle" ∧ (parseMethodDescriptor y.desc).map (fun d => d.parameters.length) = some As.length) (hR : rm.frames + 1 ≤ R.frames ∧ 8 + (maxL + 11) + rm.locals ≤ R.locals) (hrest : (rest.map fun v => v.category).sum ≤ 8) (hstk : stk = As.reverse ++ .ref b :: rest) (hc : c2 ≤ R.cells ∧ s2 ≤ R.slots) (hc2 : cells + rm.cells = c2) (hs2 : slots + rm.slots = s2) (d : decode cc pc = .ok (.invokespecial index, 3))
    (k : ∀ w1 : va_W, post w1 → Cx (kw ((P ++ w1) ++ Q)) D tys E l Γ cc own Ts nL R → V (kw ((P ++ w1) ++ Q)) D Γ () c2 s2 (pc + 3) lv rest) : V w D Γ st cells slots pc lv stk := by
  subst hc2; subst hs2; subst hstk
  intro H locs ls hl hP hS
  have hD := G.hD st
  rw [hemb] at hP hD
  have hFA := ext_A hD hS G.A
  have hM1 := hM H.size
  rw [← G.hL] at hM1
  refine va_callv (va_runI (As := As) (rest := rest) ⟨G.hx, G.hb, G.ml, G.ow, G.ts⟩ hM1 (cwI As.length G.ts hg hws rfl rfl (G.ts _ hini) (G.ts _ hlink) (G.ts _ hin) hyn hd (by rw [G.hR]; exact hR)) ⟨CG_blind G.eo, fun U hU hW => ⟨rfl, G.preE (u := kw w0) (su := ()) hP hD hS U hU hW⟩⟩ rfl rfl (by rw [← G.n]; exact hl.1) rfl (lv_room hrest) d (by rw [G.hR]; exact hc)) hS (fun q _ h => hFA q h) hFA (fun w1 t H1 locs1 ht hvm hw hB hz1 hk1 hS1 => ?_)
  exact k w1 hw (G.world (fun _ => ext_joinD hP hD hFA hB.2)) H1 locs1 ls hl (ext_join hP hD hk1 (ht ▸ hB.1)) hS1
end VZC
