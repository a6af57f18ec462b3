/-! ===== doubles and floats ===== -/
section
variable {p : Program} {l : Launch} {e : Env} {R : Room} {s : State} {m : MethodId} {args : Array Value} {below : List Frame} {meth : Method} {c : Code} {locs : List Loc} {cells slots : Nat}
theorem ldcwF {T : State} (X : Stand p l e R s m args below meth c T locs cells slots) (hexec : p.tables.exec = Jvm.exec) {own : String} {index : Nat} {v : UInt32} (hown : s.vm.findClass own = some m.cls)
    (hconst : (Cond.constantFloat own index v).before args s = true) {g : JFrame} (hg : g.method = m) (hdg : decode c.code g.pc = .ok (.ldc_w index, 3)) :
    ∀ target, Steps p.tables e below (T.setTop { g with pc := g.pc + 3, stack := .float v :: g.stack }) target → Steps p.tables e below (T.setTop g) target := by
  obtain ⟨k, cf, hk, hcf, hcp⟩ := Cond.constantFloat_spec hown hconst
  obtain ⟨k', hk', he⟩ := X.warmed.alike.2.2 _ _ hk
  intro target hrest
  subst hg
  jvm_step X.here [hexec, hdg, ldc_w.wp_float (s := T) (f := g) X.here.top hk' (by rw [he]; exact hcf) hcp]
  exact hrest
end
theorem fn64_of {r : UInt64} (h : fn64 r = true) : vf_n64 r := by unfold fn64 at h; unfold vf_n64; exact of_decide_eq_true h
theorem fn32_of {r : UInt32} (h : fn32 r = true) : vf_n32 r := by unfold fn32 at h; unfold vf_n32; exact of_decide_eq_true h
section VFL
variable {σ : Type} {w : σ → va_W} {D : va_G} {tys : List (ClassId × FieldType)} {E : evT} {l : Launch} {Γ : cxT} {cc : ByteArray} {own : String} {Ts : List Cond} {nL : Nat} {R : Room} {st : σ} {cells slots pc : Nat} {lv : List (Nat × Value)} {rest : List Value}
theorem r_ldcwf (G : Cx w D tys E l Γ cc own Ts nL R) {index : Nat} {v : UInt32} (hc : Cond.constantFloat own index v ∈ Ts) (d : decode cc pc = .ok (.ldc_w index, 3)) (k : V w D Γ st cells slots (pc + 3) lv (.float v :: rest)) : V w D Γ st cells slots pc lv rest := by
  intro H locs ls hl hP hS T hT X
  obtain ⟨t, a, b⟩ := k H locs ls hl hP hS T hT X
  exact ⟨t, ldcwF X G.hx G.ow (G.ts _ hc) (g := F0 (xm Γ) pc ls rest) rfl (by rw [G.hb]; exact d) t a, b⟩
theorem r_ldc2d (G : Cx w D tys E l Γ cc own Ts nL R) {index : Nat} {v : UInt64} (hc : Cond.constantDouble own index v ∈ Ts) (d : decode cc pc = .ok (.ldc2_w index, 3)) (k : V w D Γ st cells slots (pc + 3) lv (.double v :: rest)) : V w D Γ st cells slots pc lv rest := fun H locs ls hl hP hS => lv_ldc2d G.hx G.hb G.ow (G.ts _ hc) d (k H locs ls hl hP hS)
theorem r_ddiv (G : Cx w D tys E l Γ cc own Ts nL R) {x y : UInt64} (hn : fn64 (FP.ddiv x y) = true) (d : decode cc pc = .ok (.ddiv, 1)) (k : V w D Γ st cells slots (pc + 1) lv (.double (FP.ddiv x y) :: rest)) : V w D Γ st cells slots pc lv (.double y :: .double x :: rest) := fun H locs ls hl hP hS => lv_ddiv G.hx G.hb d (fn64_of hn) (k H locs ls hl hP hS)
theorem r_fdiv (G : Cx w D tys E l Γ cc own Ts nL R) {x y : UInt32} (hn : fn32 (FP.fdiv x y) = true) (d : decode cc pc = .ok (.fdiv, 1)) (k : V w D Γ st cells slots (pc + 1) lv (.float (FP.fdiv x y) :: rest)) : V w D Γ st cells slots pc lv (.float y :: .float x :: rest) := fun H locs ls hl hP hS => lv_fdiv G.hx G.hb d (fn32_of hn) (k H locs ls hl hP hS)
theorem r_f2d (G : Cx w D tys E l Γ cc own Ts nL R) {x : UInt32} (hn : fn64 (FP.f2d x) = true) (d : decode cc pc = .ok (.f2d, 1)) (k : V w D Γ st cells slots (pc + 1) lv (.double (FP.f2d x) :: rest)) : V w D Γ st cells slots pc lv (.float x :: rest) := fun H locs ls hl hP hS => lv_f2d G.hx G.hb d (fn64_of hn) (k H locs ls hl hP hS)
end VFL
def Cd {σ : Type} (l : Launch) (y : MethodName) (ws : List Cond) (rm : Room) (w : σ → va_W) (E : evT) (D : va_G) (tys : List (ClassId × FieldType)) (As : List Value) (st : σ) (post : UInt64 → σ → Prop) : Prop :=
  ∀ sz : Nat, Met l y ws rm (va_Pc As (CG w E D tys st sz)) (va_Qd post (fun st' t => va_P D vwCl (w st') t.heap) (va_A (w st) sz)) rm.cells rm.slots (va_A (w st) sz)
def Cf {σ : Type} (l : Launch) (y : MethodName) (ws : List Cond) (rm : Room) (w : σ → va_W) (E : evT) (D : va_G) (tys : List (ClassId × FieldType)) (As : List Value) (st : σ) (post : UInt32 → σ → Prop) : Prop :=
  ∀ sz : Nat, Met l y ws rm (va_Pc As (CG w E D tys st sz)) (va_Qf post (fun st' t => va_P D vwCl (w st') t.heap) (va_A (w st) sz)) rm.cells rm.slots (va_A (w st) sz)
section VSF
variable {σ : Type} {w : σ → va_W} {D : va_G} {tys : List (ClassId × FieldType)} {E : evT} {l : Launch} {y : MethodName} {ws ws' : List Cond} {rm : Room} {cc : ByteArray} {nL : Nat} {own : String} {As : List Value} {st : σ}
theorem s_d {post : UInt64 → σ → Prop} (hE : EvOk E) (hw : WA w) (hy : plainFor y = true) (how : y.cls = own) (hws : ws = Cond.code y cc nL (some .double) :: ws') (hlen : (lg_sl As).length ≤ nL)
    (body : ∀ Γ : cxT, Cx w D tys E l Γ cc own ws nL rm → (∀ (st2 : σ) (v : UInt64) (cells slots pc : Nat) (lv : List (Nat × Value)), decode cc pc = .ok (.dreturn, 1) → post v st2 → cells ≤ rm.cells → slots ≤ rm.slots → V w D Γ st2 cells slots pc lv [.double v]) → V w D Γ st 0 0 0 (lv_args 0 As) []) : Cd l y ws rm w E D tys As st post := by
  intro sz
  refine Met_ofF (cc := cc) (maxL := nL) (ret := some .double) hy hws ?_
  intro p e s m args below meth c s₁ B hml hv
  obtain ⟨rfl, hsz, hP, hK, hD0, hEv⟩ := hv
  have hts := atoms_spec (ws := ws) B.pre
  have hown : s.vm.findClass own = some m.cls := by rw [← how]; exact findClass_of_methodNamed B.named
  subst hsz
  have hD : va_D (va_A (w st) s.heap.size) (w st) := hD0.self
  have hl := lv_entry As (n := nL) hlen
  rw [lg_entry_eq]
  exact body (p, l, e, rm, s, m, As.toArray, below, meth, c, va_A (w st) s.heap.size, s.heap, MQ below (va_Qd post (fun st' t => va_P D vwCl (w st') t.heap) (va_A (w st) s.heap.size)) As.toArray s rm.cells rm.slots (va_A (w st) s.heap.size), nL)
    ⟨B.exec, B.bytes, hts, hown, hK, ⟨hml, rfl⟩, fun q h => Or.inr h, fun st' => WA_D hw hD st', rfl, rfl, rfl, hE, hEv⟩
    (fun st2 v cells slots pc lv d hp hc hs H locs ls _ hP2 hS => W.widen hc hs (W.dret B.exec B.bytes B.returns (fun t ht hW => ⟨⟨v, st2, rfl, hp, by show va_P D vwCl _ t.heap; rw [ht]; exact hP2⟩, hS.F ht⟩) hS.2.2 d B.notSynchronized))
    s.heap [] _ hl hP va_S.rf
theorem s_f {post : UInt32 → σ → Prop} (hE : EvOk E) (hw : WA w) (hy : plainFor y = true) (how : y.cls = own) (hws : ws = Cond.code y cc nL (some .float) :: ws') (hlen : (lg_sl As).length ≤ nL)
    (body : ∀ Γ : cxT, Cx w D tys E l Γ cc own ws nL rm → (∀ (st2 : σ) (v : UInt32) (cells slots pc : Nat) (lv : List (Nat × Value)), decode cc pc = .ok (.freturn, 1) → post v st2 → cells ≤ rm.cells → slots ≤ rm.slots → V w D Γ st2 cells slots pc lv [.float v]) → V w D Γ st 0 0 0 (lv_args 0 As) []) : Cf l y ws rm w E D tys As st post := by
  intro sz
  refine Met_ofF (cc := cc) (maxL := nL) (ret := some .float) hy hws ?_
  intro p e s m args below meth c s₁ B hml hv
  obtain ⟨rfl, hsz, hP, hK, hD0, hEv⟩ := hv
  have hts := atoms_spec (ws := ws) B.pre
  have hown : s.vm.findClass own = some m.cls := by rw [← how]; exact findClass_of_methodNamed B.named
  subst hsz
  have hD : va_D (va_A (w st) s.heap.size) (w st) := hD0.self
  have hl := lv_entry As (n := nL) hlen
  rw [lg_entry_eq]
  exact body (p, l, e, rm, s, m, As.toArray, below, meth, c, va_A (w st) s.heap.size, s.heap, MQ below (va_Qf post (fun st' t => va_P D vwCl (w st') t.heap) (va_A (w st) s.heap.size)) As.toArray s rm.cells rm.slots (va_A (w st) s.heap.size), nL)
    ⟨B.exec, B.bytes, hts, hown, hK, ⟨hml, rfl⟩, fun q h => Or.inr h, fun st' => WA_D hw hD st', rfl, rfl, rfl, hE, hEv⟩
    (fun st2 v cells slots pc lv d hp hc hs H locs ls _ hP2 hS => W.widen hc hs (W.fret B.exec B.bytes B.returns (fun t ht hW => ⟨⟨v, st2, rfl, hp, by show va_P D vwCl _ t.heap; rw [ht]; exact hP2⟩, hS.F ht⟩) hS.2.2 d B.notSynchronized))
    s.heap [] _ hl hP va_S.rf
end VSF
section VEF
variable {σ τ : Type} {w : σ → va_W} {u : τ → va_W} {D : va_G} {tys : List (ClassId × FieldType)} {E : evT} {l : Launch} {Γ : cxT} {cc : ByteArray} {own : String} {Ts : List Cond} {nL : Nat} {R : Room} {st : σ} {su : τ} {cells slots pc : Nat} {lv : List (Nat × Value)} {rest : List Value} {P Q : va_W}
theorem e_callVd (G : Cx w D tys E l Γ cc own Ts nL R) {y : MethodName} {bytes : ByteArray} {maxL index : Nat} {ret : Option FieldType} {ws ws' : List Cond} {rm : Room} {C : String} {b : Nat} {post : UInt64 → τ → Prop} {c2 s2 : Nat} {stk : List Value} (inj : τ → σ) (hemb : ∀ t, w (inj t) = (P ++ u t) ++ Q) (hst : st = inj su) (As : List Value) (hM : Cd l y ws rm u E D tys (.ref b :: As) su post) (hv : Rv w st b C) (hg : GoodIn Ts (wsV own index C y ws)) (hws : ws = Cond.code y bytes maxL ret :: ws') (hd : y.cls = C ∧ y.cls ≠ "java/lang/invoke/MethodHandle" ∧ y.cls ≠ "java/lang/invoke/VarHandle" ∧ (parseMethodDescriptor y.desc).map (fun d => d.parameters.length) = some As.length) (hR : rm.frames + 1 ≤ R.frames ∧ 8 + (maxL + 11) + rm.locals ≤ R.locals) (hrest : (rest.map fun v => v.category).sum ≤ 8) (hstk : stk = As.reverse ++ .ref b :: rest) (hc : c2 ≤ R.cells ∧ s2 ≤ R.slots) (hc2 : cells + rm.cells = c2) (hs2 : slots + rm.slots = s2) (d : decode cc pc = .ok (.invokevirtual index, 3)) (k : ∀ (r : UInt64) (t2 : τ), post r t2 → V w D Γ (inj t2) c2 s2 (pc + 3) lv (.double r :: rest)) : V w D Γ st cells slots pc lv stk := by
  subst hc2; subst hs2; subst hstk; subst hst
  intro H locs ls hl hP hS
  have hrv := hv.recv G hP
  have hD := G.hD (inj su)
  rw [hemb] at hP hD
  have hFA := ext_A hD hS G.A
  have hM1 := hM H.size
  rw [← G.hL] at hM1
  refine va_calld (va_runV (As := As) (rest := rest) ⟨G.hx, G.hb, G.ml, G.ow, G.ts⟩ hM1 (cwV As.length G.ts hg hws rfl rfl hd (by rw [G.hR]; exact hR)) ⟨CG_blind G.eo, hrv, fun U hU hW => ⟨rfl, G.preE hP hD hS U hU hW⟩⟩ rfl rfl (by rw [← G.n]; exact hl.1) rfl (lv_room hrest) d (by rw [G.hR]; exact hc)) hS (fun q _ h => hFA q h) hFA (fun r t2 t H1 locs1 ht hvm hw hB hz1 hk1 hS1 => k r t2 hw H1 locs1 ls hl (by rw [hemb]; exact ext_join hP hD hk1 (ht ▸ hB)) hS1)
theorem e_callVf (G : Cx w D tys E l Γ cc own Ts nL R) {y : MethodName} {bytes : ByteArray} {maxL index : Nat} {ret : Option FieldType} {ws ws' : List Cond} {rm : Room} {C : String} {b : Nat} {post : UInt32 → τ → Prop} {c2 s2 : Nat} {stk : List Value} (inj : τ → σ) (hemb : ∀ t, w (inj t) = (P ++ u t) ++ Q) (hst : st = inj su) (As : List Value) (hM : Cf l y ws rm u E D tys (.ref b :: As) su post) (hv : Rv w st b C) (hg : GoodIn Ts (wsV own index C y ws)) (hws : ws = Cond.code y bytes maxL ret :: ws') (hd : y.cls = C ∧ y.cls ≠ "java/lang/invoke/MethodHandle" ∧ y.cls ≠ "java/lang/invoke/VarHandle" ∧ (parseMethodDescriptor y.desc).map (fun d => d.parameters.length) = some As.length) (hR : rm.frames + 1 ≤ R.frames ∧ 8 + (maxL + 11) + rm.locals ≤ R.locals) (hrest : (rest.map fun v => v.category).sum ≤ 8) (hstk : stk = As.reverse ++ .ref b :: rest) (hc : c2 ≤ R.cells ∧ s2 ≤ R.slots) (hc2 : cells + rm.cells = c2) (hs2 : slots + rm.slots = s2) (d : decode cc pc = .ok (.invokevirtual index, 3)) (k : ∀ (r : UInt32) (t2 : τ), post r t2 → V w D Γ (inj t2) c2 s2 (pc + 3) lv (.float r :: rest)) : V w D Γ st cells slots pc lv stk := by
  subst hc2; subst hs2; subst hstk; subst hst
  intro H locs ls hl hP hS
  have hrv := hv.recv G hP
  have hD := G.hD (inj su)
  rw [hemb] at hP hD
  have hFA := ext_A hD hS G.A
  have hM1 := hM H.size
  rw [← G.hL] at hM1
  refine va_callf (va_runV (As := As) (rest := rest) ⟨G.hx, G.hb, G.ml, G.ow, G.ts⟩ hM1 (cwV As.length G.ts hg hws rfl rfl hd (by rw [G.hR]; exact hR)) ⟨CG_blind G.eo, hrv, fun U hU hW => ⟨rfl, G.preE hP hD hS U hU hW⟩⟩ rfl rfl (by rw [← G.n]; exact hl.1) rfl (lv_room hrest) d (by rw [G.hR]; exact hc)) hS (fun q _ h => hFA q h) hFA (fun r t2 t H1 locs1 ht hvm hw hB hz1 hk1 hS1 => k r t2 hw H1 locs1 ls hl (by rw [hemb]; exact ext_join hP hD hk1 (ht ▸ hB)) hS1)
end VEF
