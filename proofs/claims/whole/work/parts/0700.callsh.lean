/-! ===== calls of methods with an exception table ===== -/
section VCH
variable {σ : Type} {w : σ → va_W} {D : va_G} {tys : List (ClassId × FieldType)} {E : evT} {l : Launch} {Γ : cxT} {cc : ByteArray} {own : String} {Ts : List Cond} {nL : Nat} {R : Room} {st : σ} {cells slots pc : Nat} {lv : List (Nat × Value)} {rest : List Value}
theorem r_callVixH {hh : List (Nat × Nat × Nat × Nat)} (G : Cx w D tys E l Γ cc own Ts nL R) {y : MethodName} {bytes : ByteArray} {rt : FieldType} {maxL index : Nat} {ret : Option FieldType} {ws ws' : List Cond} {rm : Room} {C : String} {b : Nat} {post : Int32 → σ → Prop} {px : Nat → σ → Prop} {c2 s2 : Nat} {stk : List Value} (As : List Value) (hM : Xi l y ws rm w E D tys rt (.ref b :: As) st post px) (hv : Rv w st b C) (hg : GoodIn Ts (wsV own index C y ws)) (hws : ws = Cond.codeWith y bytes maxL ret hh :: ws') (hd : y.cls = C ∧ y.cls ≠ "java/lang/invoke/MethodHandle" ∧ y.cls ≠ "java/lang/invoke/VarHandle" ∧ (parseMethodDescriptor y.desc).map (fun d => d.parameters.length) = some As.length) (hR : rm.frames + 1 ≤ R.frames ∧ 8 + (maxL + 11) + rm.locals ≤ R.locals) (hrest : (rest.map fun v => v.category).sum ≤ 8) (hstk : stk = As.reverse ++ .ref b :: rest) (hc : c2 ≤ R.cells ∧ s2 ≤ R.slots) (hc2 : cells + rm.cells = c2) (hs2 : slots + rm.slots = s2) (d : decode cc pc = .ok (.invokevirtual index, 3)) (kx : ∀ (e : Nat) (st2 : σ), px e st2 → VX w D Γ st2 c2 s2 pc lv rest (exN e)) (k : ∀ (r : Int32) (st2 : σ), post r st2 → narrow rt (.int r) = .int r → V w D Γ st2 c2 s2 (pc + 3) lv (.int r :: rest)) : V w D Γ st cells slots pc lv stk := by
  subst hc2; subst hs2; subst hstk
  intro H locs ls hl hP hS
  have hFA := G.free hS st
  have hM1 := hM H.size
  rw [← G.hL] at hM1
  refine vx_calli (vx_runVX (As := As) (rest := rest) ⟨G.hx, G.hb, G.ml, G.ow, G.ts⟩ hM1 (vx_cwVW As.length G.ts hg hws rfl rfl hd (by rw [G.hR]; exact hR)) ⟨CG_blind G.eo, hv.recv G hP, fun U hU hW => ⟨rfl, G.pre hP hS U hU hW⟩⟩ rfl rfl (by rw [← G.n]; exact hl.1) rfl (lv_room hrest) d (by rw [G.hR]; exact hc)) hS (fun q _ h => hFA q h) hFA (fun q _ h => hFA q h) (fun En ce q9 u t H1 locs1 ht hvm hw hB hz1 hk1 hS1 hce hcv hcl => by
    obtain ⟨rfl, hB⟩ := hB
    exact kx u.1 u.2 hw H1 locs1 ls q9 ce hl (ht ▸ hB) hS1 hce hcv hcl) (fun r u t H1 locs1 ht hvm hw hB hz1 hk1 hS1 => k r u hw.1 hw.2 H1 locs1 ls hl (ht ▸ hB) hS1)
theorem r_callSixH {hh : List (Nat × Nat × Nat × Nat)} (G : Cx w D tys E l Γ cc own Ts nL R) {y : MethodName} {bytes : ByteArray} {rt : FieldType} {maxL index : Nat} {ret : Option FieldType} {ws ws' : List Cond} {rm : Room} {post : Int32 → σ → Prop} {px : Nat → σ → Prop} {c2 s2 : Nat} {stk : List Value} (As : List Value) (hM : Xi l y ws rm w E D tys rt As st post px) (hg : GoodIn Ts (va_wsS own index y ws)) (hws : ws = Cond.codeWith y bytes maxL ret hh :: ws') (hd : y.cls ≠ "java/lang/invoke/MethodHandle" ∧ y.cls ≠ "java/lang/invoke/VarHandle" ∧ (parseMethodDescriptor y.desc).map (fun d => d.parameters.length) = some As.length) (hR : rm.frames + 1 ≤ R.frames ∧ 8 + (maxL + 11) + rm.locals ≤ R.locals) (hrest : (rest.map fun v => v.category).sum ≤ 8) (hstk : stk = As.reverse ++ rest) (hc : c2 ≤ R.cells ∧ s2 ≤ R.slots) (hc2 : cells + rm.cells = c2) (hs2 : slots + rm.slots = s2) (d : decode cc pc = .ok (.invokestatic index, 3)) (kx : ∀ (e : Nat) (st2 : σ), px e st2 → VX w D Γ st2 c2 s2 pc lv rest (exN e)) (k : ∀ (r : Int32) (st2 : σ), post r st2 → narrow rt (.int r) = .int r → V w D Γ st2 c2 s2 (pc + 3) lv (.int r :: rest)) : V w D Γ st cells slots pc lv stk := by
  subst hc2; subst hs2; subst hstk
  intro H locs ls hl hP hS
  have hFA := G.free hS st
  have hM1 := hM H.size
  rw [← G.hL] at hM1
  refine vx_calli (vx_runSX (As := As) (rest := rest) ⟨G.hx, G.hb, G.ml, G.ow, G.ts⟩ hM1 (vx_cwSW As.length G.ts hg hws rfl rfl hd (by rw [G.hR]; exact hR)) ⟨CG_blind G.eo, fun U hU hW => ⟨rfl, G.pre hP hS U hU hW⟩⟩ rfl rfl (by rw [← G.n]; exact hl.1) rfl (lv_room hrest) d (by rw [G.hR]; exact hc)) hS (fun q _ h => hFA q h) hFA (fun q _ h => hFA q h) (fun En ce q9 u t H1 locs1 ht hvm hw hB hz1 hk1 hS1 hce hcv hcl => by
    obtain ⟨rfl, hB⟩ := hB
    exact kx u.1 u.2 hw H1 locs1 ls q9 ce hl (ht ▸ hB) hS1 hce hcv hcl) (fun r u t H1 locs1 ht hvm hw hB hz1 hk1 hS1 => k r u hw.1 hw.2 H1 locs1 ls hl (ht ▸ hB) hS1)
end VCH
section VEH
variable {σ τ : Type} {w : σ → va_W} {u : τ → va_W} {D : va_G} {tys : List (ClassId × FieldType)} {E : evT} {l : Launch} {Γ : cxT} {cc : ByteArray} {own : String} {Ts : List Cond} {nL : Nat} {R : Room} {st : σ} {su : τ} {cells slots pc : Nat} {lv : List (Nat × Value)} {rest : List Value} {P Q : va_W}
theorem e_callVixH {hh : List (Nat × Nat × Nat × Nat)} (G : Cx w D tys E l Γ cc own Ts nL R) {y : MethodName} {bytes : ByteArray} {rt : FieldType} {maxL index : Nat} {ret : Option FieldType} {ws ws' : List Cond} {rm : Room} {C : String} {b : Nat} {post : Int32 → τ → Prop} {px : Nat → τ → Prop} {c2 s2 : Nat} {stk : List Value} (inj : τ → σ) (hemb : ∀ t, w (inj t) = (P ++ u t) ++ Q) (hst : st = inj su) (As : List Value) (hM : Xi l y ws rm u E D tys rt (.ref b :: As) su post px) (hv : Rv w st b C) (hg : GoodIn Ts (wsV own index C y ws)) (hws : ws = Cond.codeWith y bytes maxL ret hh :: ws') (hd : y.cls = C ∧ y.cls ≠ "java/lang/invoke/MethodHandle" ∧ y.cls ≠ "java/lang/invoke/VarHandle" ∧ (parseMethodDescriptor y.desc).map (fun d => d.parameters.length) = some As.length) (hR : rm.frames + 1 ≤ R.frames ∧ 8 + (maxL + 11) + rm.locals ≤ R.locals) (hrest : (rest.map fun v => v.category).sum ≤ 8) (hstk : stk = As.reverse ++ .ref b :: rest) (hc : c2 ≤ R.cells ∧ s2 ≤ R.slots) (hc2 : cells + rm.cells = c2) (hs2 : slots + rm.slots = s2) (d : decode cc pc = .ok (.invokevirtual index, 3)) (kx : ∀ (e : Nat) (t2 : τ), px e t2 → VX w D Γ (inj t2) c2 s2 pc lv rest (exN e)) (k : ∀ (r : Int32) (t2 : τ), post r t2 → narrow rt (.int r) = .int r → V w D Γ (inj t2) c2 s2 (pc + 3) lv (.int r :: rest)) : V w D Γ st cells slots pc lv stk := by
  subst hc2; subst hs2; subst hstk; subst hst
  intro H locs ls hl hP hS
  have hrv := hv.recv G hP
  have hD := G.hD (inj su)
  rw [hemb] at hP hD
  have hFA := ext_A hD hS G.A
  have hM1 := hM H.size
  rw [← G.hL] at hM1
  refine vx_calli (vx_runVX (As := As) (rest := rest) ⟨G.hx, G.hb, G.ml, G.ow, G.ts⟩ hM1 (vx_cwVW As.length G.ts hg hws rfl rfl hd (by rw [G.hR]; exact hR)) ⟨CG_blind G.eo, hrv, fun U hU hW => ⟨rfl, G.preE hP hD hS U hU hW⟩⟩ rfl rfl (by rw [← G.n]; exact hl.1) rfl (lv_room hrest) d (by rw [G.hR]; exact hc)) hS (fun q _ h => hFA q h) hFA (fun q _ h => hFA q h) (fun En ce q9 t2 t H1 locs1 ht hvm hw hB hz1 hk1 hS1 hce hcv hcl => by
    obtain ⟨rfl, hB⟩ := hB
    exact kx t2.1 t2.2 hw H1 locs1 ls q9 ce hl (by rw [hemb]; exact ext_join hP hD hk1 (ht ▸ hB)) hS1 hce hcv hcl) (fun r t2 t H1 locs1 ht hvm hw hB hz1 hk1 hS1 => k r t2 hw.1 hw.2 H1 locs1 ls hl (by rw [hemb]; exact ext_join hP hD hk1 (ht ▸ hB)) hS1)
end VEH
