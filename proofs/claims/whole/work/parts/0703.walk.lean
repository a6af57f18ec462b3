/-! ===== a walk through a set: the council's world and the walk's cell ===== -/
def wK (ad : Nat → Nat) (κ : Nat → ClassId) (q t : Nat) (m : Int32) (σ : kS) : va_W := ([] ++ cW ad κ σ.1) ++ [(q, .inr (6, [.ref (ad t), .int m, .int σ.2.1, .int σ.2.2]))]
section KWO
variable (ad : Nat → Nat) (κ : Nat → ClassId) (q t : Nat) (m : Int32) (σ : kS)
theorem cW_len (s : cS) : (cW ad κ s).length = 79 := by simp [cW]
theorem wK_WA : WA (wK ad κ q t m) := fun st st' => by simp [wK, cW]
theorem kw_WALK : (wK ad κ q t m σ)[79]? = some (q, .inr (6, [.ref (ad t), .int m, .int σ.2.1, .int σ.2.2])) := by
  unfold wK
  rw [List.nil_append, List.getElem?_append_right (by rw [cW_len]; exact Nat.le_refl _), cW_len]
  rfl
theorem kw_MS {n : Nat} (h : n < 55) : (wK ad κ q t m σ)[n]? = some (ad n, .inr (2, [.long (sL σ.1 n), .long (sH σ.1 n)])) := by
  unfold wK
  rw [List.nil_append, List.getElem?_append_left (by rw [cW_len]; omega)]
  exact cw_MS ad κ σ.1 h
theorem ku_next (v : Int32) : (wK ad κ q t m σ).set 79 (q, .inr (6, [.ref (ad t), .int m, .int v, .int σ.2.2])) = wK ad κ q t m (σ.1, v, σ.2.2) := by
  unfold wK
  rw [List.nil_append, List.set_append_right _ _ (by rw [cW_len]; exact Nat.le_refl _), cW_len]
  rfl
theorem ku_last (v : Int32) : (wK ad κ q t m σ).set 79 (q, .inr (6, [.ref (ad t), .int m, .int σ.2.1, .int v])) = wK ad κ q t m (σ.1, σ.2.1, v) := by
  unfold wK
  rw [List.nil_append, List.set_append_right _ _ (by rw [cW_len]; exact Nat.le_refl _), cW_len]
  rfl
theorem wK_emb (s : cS) (b c : Int32) : wK ad κ q t m (s, b, c) = ([] ++ cW ad κ s) ++ [(q, .inr (6, [.ref (ad t), .int m, .int b, .int c]))] := rfl
theorem wK_new (s : cS) : (cW ad κ s ++ [(q, .inr (6, [.ref (ad t), .int m, .int 0, .int (-1)]))]) ++ [] = wK ad κ q t m (s, 0, -1) := by rw [List.append_nil]; rfl
theorem wK_new1 (s : cS) : cW ad κ s ++ [(q, .inr (6, [.ref (ad t), .int m, .int 0, .int (-1)]))] = wK ad κ q t m (s, 0, -1) := rfl
section
variable {D : va_G} {tys : List (ClassId × FieldType)} {E : evT} {l : Launch} {Γ : cxT} {cc : ByteArray} {own : String} {Ts : List Cond} {nL : Nat} {R : Room} {cells slots pc : Nat} {lv : List (Nat × Value)} {rest : List Value}
variable {ad κ q t m}
theorem Cx.unK (G : Cx (wK ad κ q t m) D tys E l Γ cc own Ts nL R) : Cx (cW ad κ) D tys E l Γ cc own Ts nL R :=
  G.world (fun s => ext_D (P := []) (w := cW ad κ s) (Q := [(q, .inr (6, [.ref (ad t), .int m, .int 0, .int 0]))]) (G.hD (s, 0, 0)))
variable {σ : kS}
theorem V_unK (k : V (cW ad κ) D Γ σ.1 cells slots pc lv rest) : V (wK ad κ q t m) D Γ σ cells slots pc lv rest := fun H locs ls hl hP hS => k H locs ls hl (ext_P hP) hS
theorem VX_unK {En : String} (k : VX (cW ad κ) D Γ σ.1 cells slots pc lv rest En) : VX (wK ad κ q t m) D Γ σ cells slots pc lv rest En := fun H locs ls a ce hl hP hS => k H locs ls a ce hl (ext_P hP) hS
theorem V_kw {τ : Type} {w : τ → va_W} {st : τ} (k : V w D Γ st cells slots pc lv rest) : V (kw (w st)) D Γ () cells slots pc lv rest := k
end
end KWO
/-! ===== which exceptions a handler takes ===== -/
def CAt (U : State) : Prop := (va_Nw (.castable (exN 1) (exN 1)) U ∧ va_Nw (.castable (exN 2) (exN 2)) U ∧ va_Nw (.castable (exN 3) (exN 3)) U ∧ va_Nw (.castable (exN 4) (exN 4)) U ∧ va_Nw (.castable (exN 5) (exN 5)) U) ∧ (va_Nc (exN 2) (exN 1) U ∧ va_Nc (exN 3) (exN 1) U ∧ va_Nc (exN 4) (exN 1) U ∧ va_Nc (exN 4) (exN 3) U) ∧ (va_Nw (.classLink RX7 152 (exN 4)) U ∧ va_Nw (.classLink RL 15 (exN 2)) U ∧ va_Nw (.classLink RL 41 (exN 3)) U ∧ va_Nw (.classLink RL 84 (exN 4)) U)
def COk (E : evT) : Prop := ∀ (A : Nat → Prop) (U : State) (H : Heap), E A U H → CAt U
section
variable {U : State}
theorem CAt.c1 (h : CAt U) : va_Nw (.castable (exN 1) (exN 1)) U := h.1.1
theorem CAt.c2 (h : CAt U) : va_Nw (.castable (exN 2) (exN 2)) U := h.1.2.1
theorem CAt.c3 (h : CAt U) : va_Nw (.castable (exN 3) (exN 3)) U := h.1.2.2.1
theorem CAt.c4 (h : CAt U) : va_Nw (.castable (exN 4) (exN 4)) U := h.1.2.2.2.1
theorem CAt.c5 (h : CAt U) : va_Nw (.castable (exN 5) (exN 5)) U := h.1.2.2.2.2
theorem CAt.n21 (h : CAt U) : va_Nc (exN 2) (exN 1) U := h.2.1.1
theorem CAt.n31 (h : CAt U) : va_Nc (exN 3) (exN 1) U := h.2.1.2.1
theorem CAt.n41 (h : CAt U) : va_Nc (exN 4) (exN 1) U := h.2.1.2.2.1
theorem CAt.n43 (h : CAt U) : va_Nc (exN 4) (exN 3) U := h.2.1.2.2.2
theorem CAt.l152 (h : CAt U) : va_Nw (.classLink RX7 152 (exN 4)) U := h.2.2.1
theorem CAt.l15 (h : CAt U) : va_Nw (.classLink RL 15 (exN 2)) U := h.2.2.2.1
theorem CAt.l41 (h : CAt U) : va_Nw (.classLink RL 41 (exN 3)) U := h.2.2.2.2.1
theorem CAt.l84 (h : CAt U) : va_Nw (.classLink RL 84 (exN 4)) U := h.2.2.2.2.2
end
section
variable {σ : Type} {w : σ → va_W} {D : va_G} {tys : List (ClassId × FieldType)} {E : evT} {l : Launch} {Γ : cxT} {cc : ByteArray} {own : String} {Ts : List Cond} {nL : Nat} {R : Room} {st : σ} {cells slots pc : Nat} {lv : List (Nat × Value)} {rest : List Value}
theorem r_catchL (G : Cx w D tys E l Γ cc own Ts nL R) {k : Nat} {name : String} (pre : List ExceptionTableEntry) (x : ExceptionTableEntry) (suf : List ExceptionTableEntry) (hsplit : (xc Γ).exceptionTable.toList = pre ++ x :: suf)
    (hpass : ∀ z ∈ pre, covers z pc = false ∨ (z.catchType ≠ 0 ∧ ∃ nm : String, Cond.classLink own z.catchType nm ∈ Ts ∧ va_Nc (exN k) nm (xs Γ))) (hx : covers x pc = true) (h0 : x.catchType ≠ 0) (hlink : va_Nw (Cond.classLink own x.catchType name) (xs Γ)) (hcast : va_Nw (.castable (exN k) name) (xs Γ))
    (kk : ∀ q : Nat, V w D Γ st cells slots x.handlerPc lv [.ref q]) : VX w D Γ st cells slots pc lv rest (exN k) := by
  intro H locs ls q ce hl hP hS hq hv hcl
  exact vx_catch G.ow pre x suf hsplit (fun z hz => (hpass z hz).imp_right (fun h => ⟨h.1, h.2.imp (fun nm h => ⟨G.ts _ h.1, h.2⟩)⟩)) hx h0 (va_Nw.use rfl hlink) (va_Nw.use rfl hcast) hq hv hcl (kk q H locs ls hl hP hS)
end
abbrev rmX6_step : Room := { frames := 6, cells := 1, slots := 6, locals := 92 }
set_option maxRecDepth 20000 in
theorem kX6_step_X6 : ∀ w ∈ u_ws RX6 TX6 4, w ∈ wsX6_step := by decide +kernel
set_option maxRecDepth 20000 in
theorem mX6_step_f19 : Cond.fieldLink RX6 19 "SetCouncil$Walk" "next" "I" ∈ wsX6_step := by decide +kernel
set_option maxRecDepth 20000 in
theorem mX6_step_f9 : Cond.fieldLink RX6 9 "SetCouncil$Walk" "through" "LSetCouncil$MemberSet;" ∈ wsX6_step := by decide +kernel
set_option maxHeartbeats 4000000 in
set_option maxRecDepth 100000 in
theorem wX6_step_L5 {E : evT} {l : Launch} {D : va_G} {ad : Nat → Nat} {q : Nat} {κ : Nat → ClassId} (hE : EvOk E) (hT : TOk E) (hfl : l.stackTraces = false) (t : Nat) (m : Int32) (ht : t < 55) {Γ : cxT} {Qc : Array Value → State → Outcome → State → Prop} (G : Cx (wK ad κ q t m) D (tyA κ) E l Γ cX6_step RX6 wsX6_step 2 rmX6_step) {o : ((Nat × kS) ⊕ (Int32 × kS))} (X9 : Tx (wK ad κ q t m) D Γ rmX6_step (fun e st2 => o = .inl (e, st2)) Qc []) (hret : ∀ (st2 : kS) (v : Int32) (cells slots pc : Nat) (lv : List (Nat × Value)), decode cX6_step pc = .ok (.ireturn, 1) → o = .inr (v, st2) → narrow .int (.int v) = .int v → cells ≤ rmX6_step.cells → slots ≤ rmX6_step.slots → V (wK ad κ q t m) D Γ st2 cells slots pc lv [.int v]) {k0 : Int32 → kS → Option ((Nat × kS) ⊕ (Int32 × kS))} {k1 : kS → Option ((Nat × kS) ⊕ (Int32 × kS))} (hk0 : ∀ (y1 : Int32) (s : kS), k0 y1 s = some o → V (wK ad κ q t m) D Γ s 0 0 22 [(0, .ref q), (1, .int y1)] []) (hk1 : ∀ (s : kS), k1 s = some o → V (wK ad κ q t m) D Γ s 0 0 42 [] []) : ∀ (fuel : Nat) (x1 : Int32) (s : kS), fX6_step_L5 t m k0 k1 fuel x1 s = some o → V (wK ad κ q t m) D Γ s 0 0 5 [(0, .ref q), (1, .int x1)] [] := by
  intro fuel
  induction fuel with
  | zero =>
    intro _ _ h
    have h : none = some o := h
    cases h
  | succ fuel ih =>
    intro x1 s h
    rw [fX6_step_L5] at h
    refine r_iload_n G 1 rfl rfl dX6_step_5 ?_
    refine r_bipush G (v := 102) (by decide) dX6_step_6 ?_
    refine r_icmp_ge G (tgt := 42) dX6_step_8 (by decide) (fun c => ?_) (fun c => ?_)
    · rw [if_pos c] at h
      refine V.sub (lv' := []) [ ] rfl ?_
      exact hk1 _ h
    · rw [if_neg c] at h
      refine r_aload_n G 0 rfl rfl dX6_step_11 ?_
      refine r_get G (C := RX6) (T := TX6) (N := 4) kX6_step_X6 79 (kw_WALK ad κ _ _ _ _) rfl 0 (by decide) mX6_step_f9 rfl rfl dX6_step_12 ?_
      refine r_iload_n G 1 rfl rfl dX6_step_15 ?_
      refine e_callVi G (fun a : cS => (a, s.2.1, s.2.2)) (fun x9 => wK_emb ad κ _ _ _ x9 _ _) rfl [.int x1] (qX2_holds hE t ht x1 _) ⟨t, 2, _, _, rfl, (kw_MS ad κ _ _ _ _ ht), rfl⟩ gX6_step_X2_holds rfl hdX2_holds ⟨Nat.le_of_ble_eq_true rfl, Nat.le_of_ble_eq_true rfl⟩ (Nat.le_of_ble_eq_true rfl) rfl ⟨Nat.le_of_ble_eq_true rfl, Nat.le_of_ble_eq_true rfl⟩ rfl rfl dX6_step_16 (fun r1 s1 hp hn1 => ?_)
      obtain ⟨rfl, hs⟩ := hp
      have hs := hs.symm
      subst hs
      refine r_if_eq G (tgt := 36) dX6_step_19 (by decide) (fun c => ?_) (fun c => ?_)
      · rw [if_pos c] at h
        refine r_iinc G (j := 1) rfl (v := x1 + 1) (lv' := [(0, .ref q), (1, .int (x1 + 1))]) rfl [1, 0] rfl (by decide) dX6_step_36 ?_
        refine r_goto G (tgt := 5) dX6_step_39 (by decide) ?_
        exact ih _ _ h
      · rw [if_neg c] at h
        exact hk0 _ _ h
set_option maxRecDepth 20000 in
theorem mX6_step_f23 : Cond.fieldLink RX6 23 "SetCouncil$Walk" "last" "I" ∈ wsX6_step := by decide +kernel
set_option maxRecDepth 20000 in
theorem mX6_step_k32 : Cond.classLink RX6 32 "java/util/NoSuchElementException" ∈ wsX6_step := by decide +kernel
set_option maxRecDepth 20000 in
theorem mX6_step_i3 : Cond.initialized "java/util/NoSuchElementException" ∈ wsX6_step := by decide +kernel
set_option maxRecDepth 20000 in
theorem tX6_step_36 : ∀ w ∈ (nse_at RX6 36).filter goodWord, w ∈ wsX6_step := by decide +kernel
theorem oX6_36 : ∀ w ∈ (nse_at RX6 36), vx_ot w = true := by decide +kernel
theorem bX6_36 : ∀ w ∈ (nse_at RX6 36).filter (fun w => !goodWord w), w ∈ thB := by decide +kernel
theorem sX6_34 : (RX6, 34, "the walk has no further member") ∈ thS := by decide +kernel
set_option maxHeartbeats 4000000 in
set_option maxRecDepth 100000 in
theorem qX6_step {E : evT} {l : Launch} {D : va_G} {ad : Nat → Nat} {q : Nat} {κ : Nat → ClassId} (hE : EvOk E) (hT : TOk E) (hfl : l.stackTraces = false) (t : Nat) (m : Int32) (ht : t < 55) (s : kS) {o : ((Nat × kS) ⊕ (Int32 × kS))} (h : fX6_step t m s = some o) : Xi l yX6_step wsX6_step rmX6_step (wK ad κ q t m) E D (tyA κ) .int [.ref q] s (fun r s2 => o = .inr (r, s2)) (fun e s2 => o = .inl (e, s2)) := by
  rw [fX6_step] at h
  refine s_xi (cc := cX6_step) (nL := 2) (own := RX6) hE (wK_WA ad κ q t m) (by decide) rfl rfl (Nat.le_of_ble_eq_true rfl) (fun Γ Qc G X9 hret => ?_)
  refine r_aload_n G 0 rfl rfl dX6_step_0 ?_
  refine r_get G (C := RX6) (T := TX6) (N := 4) kX6_step_X6 79 (kw_WALK ad κ _ _ _ _) rfl 2 (by decide) mX6_step_f19 rfl rfl dX6_step_1 ?_
  refine r_istore_n G (lv' := [(0, .ref q), (1, .int s.2.1)]) [1, 0] rfl rfl (by decide) dX6_step_4 ?_
  refine wX6_step_L5 hE hT hfl _ _ ht G X9 hret (fun y1_2 s2 h => ?_) (fun s3 h => ?_) 1100 _ _ h
  · try dsimp only at h
    refine r_aload_n G 0 rfl rfl dX6_step_22 ?_
    refine r_iload_n G 1 rfl rfl dX6_step_23 ?_
    refine r_put G (C := RX6) (T := TX6) (N := 4) kX6_step_X6 tyX6 tyX6_ok nmX6 79 (kw_WALK ad κ _ _ _ _) rfl 3 (by decide) mX6_step_f23 rfl rfl (tyX6_ok 3 (by decide)) rfl rfl (Nat.le_of_ble_eq_true rfl) (ku_last ad κ _ _ _ _ _) dX6_step_24 ?_
    refine r_aload_n G 0 rfl rfl dX6_step_27 ?_
    refine r_iload_n G 1 rfl rfl dX6_step_28 ?_
    refine r_iconst G (v := 1) (by decide) dX6_step_29 ?_
    refine r_iadd G dX6_step_30 ?_
    refine r_put G (C := RX6) (T := TX6) (N := 4) kX6_step_X6 tyX6 tyX6_ok nmX6 79 (kw_WALK ad κ _ _ _ _) rfl 2 (by decide) mX6_step_f19 rfl rfl (tyX6_ok 2 (by decide)) rfl rfl (Nat.le_of_ble_eq_true rfl) (ku_next ad κ _ _ _ _ _) dX6_step_31 ?_
    refine r_iload_n G 1 rfl rfl dX6_step_34 ?_
    exact hret _ _ _ _ _ _ dX6_step_35 (Option.some.inj h).symm rfl (Nat.le_of_ble_eq_true rfl) (Nat.le_of_ble_eq_true rfl)
  · try dsimp only at h
    exact r_throwN G X9 hT hfl  mX6_step_k32 mX6_step_i3 tX6_step_36 oX6_36 bX6_36 sX6_34 dX6_step_42 dX6_step_45 dX6_step_46 dX6_step_48 dX6_step_51 (Option.some.inj h).symm (Nat.le_of_ble_eq_true rfl) (Nat.le_of_ble_eq_true rfl) (Nat.le_of_ble_eq_true rfl) (Nat.le_of_ble_eq_true rfl)
abbrev rmX6_takeOutLast : Room := { frames := 6, cells := 1, slots := 6, locals := 92 }
set_option maxRecDepth 20000 in
theorem kX6_takeOutLast_X6 : ∀ w ∈ u_ws RX6 TX6 4, w ∈ wsX6_takeOutLast := by decide +kernel
set_option maxRecDepth 20000 in
theorem mX6_takeOutLast_f15 : Cond.fieldLink RX6 15 "SetCouncil$Walk" "mayTakeOut" "Z" ∈ wsX6_takeOutLast := by decide +kernel
set_option maxRecDepth 20000 in
theorem mX6_takeOutLast_f23 : Cond.fieldLink RX6 23 "SetCouncil$Walk" "last" "I" ∈ wsX6_takeOutLast := by decide +kernel
set_option maxRecDepth 20000 in
theorem mX6_takeOutLast_f9 : Cond.fieldLink RX6 9 "SetCouncil$Walk" "through" "LSetCouncil$MemberSet;" ∈ wsX6_takeOutLast := by decide +kernel
set_option maxRecDepth 20000 in
theorem mX6_takeOutLast_k44 : Cond.classLink RX6 44 "java/lang/IllegalStateException" ∈ wsX6_takeOutLast := by decide +kernel
set_option maxRecDepth 20000 in
theorem mX6_takeOutLast_i4 : Cond.initialized "java/lang/IllegalStateException" ∈ wsX6_takeOutLast := by decide +kernel
set_option maxRecDepth 20000 in
theorem tX6_takeOutLast_48 : ∀ w ∈ (vx_atS RX6 48 "java/lang/IllegalStateException" ["java/lang/RuntimeException", "java/lang/Exception"]).filter goodWord, w ∈ wsX6_takeOutLast := by decide +kernel
theorem oX6_48 : ∀ w ∈ (vx_atS RX6 48 "java/lang/IllegalStateException" ["java/lang/RuntimeException", "java/lang/Exception"]), vx_ot w = true := by decide +kernel
theorem bX6_48 : ∀ w ∈ (vx_atS RX6 48 "java/lang/IllegalStateException" ["java/lang/RuntimeException", "java/lang/Exception"]).filter (fun w => !goodWord w), w ∈ thB := by decide +kernel
theorem sX6_46 : (RX6, 46, "there is no member to remove") ∈ thS := by decide +kernel
set_option maxRecDepth 20000 in
theorem mX6_takeOutLast_k39 : Cond.classLink RX6 39 "java/lang/UnsupportedOperationException" ∈ wsX6_takeOutLast := by decide +kernel
set_option maxRecDepth 20000 in
theorem mX6_takeOutLast_i5 : Cond.initialized "java/lang/UnsupportedOperationException" ∈ wsX6_takeOutLast := by decide +kernel
set_option maxRecDepth 20000 in
theorem tX6_takeOutLast_43 : ∀ w ∈ (vx_atS RX6 43 "java/lang/UnsupportedOperationException" ["java/lang/RuntimeException", "java/lang/Exception"]).filter goodWord, w ∈ wsX6_takeOutLast := by decide +kernel
theorem oX6_43 : ∀ w ∈ (vx_atS RX6 43 "java/lang/UnsupportedOperationException" ["java/lang/RuntimeException", "java/lang/Exception"]), vx_ot w = true := by decide +kernel
theorem bX6_43 : ∀ w ∈ (vx_atS RX6 43 "java/lang/UnsupportedOperationException" ["java/lang/RuntimeException", "java/lang/Exception"]).filter (fun w => !goodWord w), w ∈ thB := by decide +kernel
theorem sX6_41 : (RX6, 41, "a view cannot be changed") ∈ thS := by decide +kernel
set_option maxHeartbeats 4000000 in
set_option maxRecDepth 100000 in
theorem qX6_takeOutLast {E : evT} {l : Launch} {D : va_G} {ad : Nat → Nat} {q : Nat} {κ : Nat → ClassId} (hE : EvOk E) (hT : TOk E) (hfl : l.stackTraces = false) (t : Nat) (m : Int32) (ht : t < 55) (s : kS) {o : ((Nat × kS) ⊕ (kS))} (h : fX6_takeOutLast t m s = some o) : Xv l yX6_takeOutLast wsX6_takeOutLast rmX6_takeOutLast (wK ad κ q t m) E D (tyA κ)  [.ref q] s (fun s2 => o = .inr s2) (fun e s2 => o = .inl (e, s2)) := by
  rw [fX6_takeOutLast] at h
  refine s_xv (cc := cX6_takeOutLast) (nL := 1) (own := RX6) hE (wK_WA ad κ q t m) (by decide) rfl rfl (Nat.le_of_ble_eq_true rfl) (fun Γ Qc G X9 hret => ?_)
  refine r_aload_n G 0 rfl rfl dX6_takeOutLast_0 ?_
  refine r_get G (C := RX6) (T := TX6) (N := 4) kX6_takeOutLast_X6 79 (kw_WALK ad κ _ _ _ _) rfl 1 (by decide) mX6_takeOutLast_f15 rfl rfl dX6_takeOutLast_1 ?_
  refine r_if_ne G (tgt := 17) dX6_takeOutLast_4 (by decide) (fun c => ?_) (fun c => ?_)
  · rw [if_neg c] at h
    refine r_aload_n G 0 rfl rfl dX6_takeOutLast_17 ?_
    refine r_get G (C := RX6) (T := TX6) (N := 4) kX6_takeOutLast_X6 79 (kw_WALK ad κ _ _ _ _) rfl 3 (by decide) mX6_takeOutLast_f23 rfl rfl dX6_takeOutLast_18 ?_
    refine r_iconst G (v := (-1)) (by decide) dX6_takeOutLast_21 ?_
    refine r_icmp_ne G (tgt := 35) dX6_takeOutLast_22 (by decide) (fun c => ?_) (fun c => ?_)
    · rw [if_neg c] at h
      refine r_aload_n G 0 rfl rfl dX6_takeOutLast_35 ?_
      refine r_get G (C := RX6) (T := TX6) (N := 4) kX6_takeOutLast_X6 79 (kw_WALK ad κ _ _ _ _) rfl 0 (by decide) mX6_takeOutLast_f9 rfl rfl dX6_takeOutLast_36 ?_
      refine r_aload_n G 0 rfl rfl dX6_takeOutLast_39 ?_
      refine r_get G (C := RX6) (T := TX6) (N := 4) kX6_takeOutLast_X6 79 (kw_WALK ad κ _ _ _ _) rfl 3 (by decide) mX6_takeOutLast_f23 rfl rfl dX6_takeOutLast_40 ?_
      obtain ⟨o1, e1, h⟩ := ob h
      refine e_callVi G (fun a : cS => (a, s.2.1, s.2.2)) (fun x9 => wK_emb ad κ _ _ _ x9 _ _) rfl [.int s.2.2] (qX2_takeOut hE t ht s.2.2 _ e1) ⟨t, 2, _, _, rfl, (kw_MS ad κ _ _ _ _ ht), rfl⟩ gX6_takeOutLast_X2_takeOut rfl hdX2_takeOut ⟨Nat.le_of_ble_eq_true rfl, Nat.le_of_ble_eq_true rfl⟩ (Nat.le_of_ble_eq_true rfl) rfl ⟨Nat.le_of_ble_eq_true rfl, Nat.le_of_ble_eq_true rfl⟩ rfl rfl dX6_takeOutLast_43 (fun r1 s1 hp hn1 => ?_)
      subst hp
      try dsimp only at h
      refine r_pop G rfl dX6_takeOutLast_46 ?_
      refine r_aload_n G 0 rfl rfl dX6_takeOutLast_47 ?_
      refine r_iconst G (v := (-1)) (by decide) dX6_takeOutLast_48 ?_
      refine r_put G (C := RX6) (T := TX6) (N := 4) kX6_takeOutLast_X6 tyX6 tyX6_ok nmX6 79 (kw_WALK ad κ _ _ _ _) rfl 3 (by decide) mX6_takeOutLast_f23 rfl rfl (tyX6_ok 3 (by decide)) rfl rfl (Nat.le_of_ble_eq_true rfl) (ku_last ad κ _ _ _ _ _) dX6_takeOutLast_49 ?_
      exact hret _ _ _ _ _ dX6_takeOutLast_52 (Option.some.inj h).symm (Nat.le_of_ble_eq_true rfl) (Nat.le_of_ble_eq_true rfl)
    · rw [if_pos c] at h
      exact r_throw G X9 hT hfl (k := 4) (by decide) mX6_takeOutLast_k44 mX6_takeOutLast_i4 tX6_takeOutLast_48 oX6_48 bX6_48 sX6_46 dX6_takeOutLast_25 dX6_takeOutLast_28 dX6_takeOutLast_29 dX6_takeOutLast_31 dX6_takeOutLast_34 (Option.some.inj h).symm (Nat.le_of_ble_eq_true rfl) (Nat.le_of_ble_eq_true rfl) (Nat.le_of_ble_eq_true rfl) (Nat.le_of_ble_eq_true rfl)
  · rw [if_pos c] at h
    exact r_throw G X9 hT hfl (k := 5) (by decide) mX6_takeOutLast_k39 mX6_takeOutLast_i5 tX6_takeOutLast_43 oX6_43 bX6_43 sX6_41 dX6_takeOutLast_7 dX6_takeOutLast_10 dX6_takeOutLast_11 dX6_takeOutLast_13 dX6_takeOutLast_16 (Option.some.inj h).symm (Nat.le_of_ble_eq_true rfl) (Nat.le_of_ble_eq_true rfl) (Nat.le_of_ble_eq_true rfl) (Nat.le_of_ble_eq_true rfl)
abbrev rmX6_step_n : Room := { frames := 6, cells := 0, slots := 0, locals := 92 }
set_option maxHeartbeats 4000000 in
set_option maxRecDepth 100000 in
theorem wX6_step_L5_n {E : evT} {l : Launch} {D : va_G} {ad : Nat → Nat} {q : Nat} {κ : Nat → ClassId} (hE : EvOk E) (t : Nat) (m : Int32) (ht : t < 55) {Γ : cxT} (G : Cx (wK ad κ q t m) D (tyA κ) E l Γ cX6_step RX6 wsX6_step 2 rmX6_step_n) {o : Int32 × kS} (hret : ∀ (st2 : kS) (v : Int32) (cells slots pc : Nat) (lv : List (Nat × Value)), decode cX6_step pc = .ok (.ireturn, 1) → o = (v, st2) → narrow .int (.int v) = .int v → cells ≤ rmX6_step_n.cells → slots ≤ rmX6_step_n.slots → V (wK ad κ q t m) D Γ st2 cells slots pc lv [.int v]) {k0 : Int32 → kS → Option ((Nat × kS) ⊕ (Int32 × kS))} {k1 : kS → Option ((Nat × kS) ⊕ (Int32 × kS))} (hk0 : ∀ (y1 : Int32) (s : kS), k0 y1 s = some (.inr o) → V (wK ad κ q t m) D Γ s 0 0 22 [(0, .ref q), (1, .int y1)] []) (hk1 : ∀ (s : kS), k1 s = some (.inr o) → V (wK ad κ q t m) D Γ s 0 0 42 [] []) : ∀ (fuel : Nat) (x1 : Int32) (s : kS), fX6_step_L5 t m k0 k1 fuel x1 s = some (.inr o) → V (wK ad κ q t m) D Γ s 0 0 5 [(0, .ref q), (1, .int x1)] [] := by
  intro fuel
  induction fuel with
  | zero =>
    intro _ _ h
    have h : none = some (Sum.inr o) := h
    cases h
  | succ fuel ih =>
    intro x1 s h
    rw [fX6_step_L5] at h
    refine r_iload_n G 1 rfl rfl dX6_step_5 ?_
    refine r_bipush G (v := 102) (by decide) dX6_step_6 ?_
    refine r_icmp_ge G (tgt := 42) dX6_step_8 (by decide) (fun c => ?_) (fun c => ?_)
    · rw [if_pos c] at h
      refine V.sub (lv' := []) [ ] rfl ?_
      exact hk1 _ h
    · rw [if_neg c] at h
      refine r_aload_n G 0 rfl rfl dX6_step_11 ?_
      refine r_get G (C := RX6) (T := TX6) (N := 4) kX6_step_X6 79 (kw_WALK ad κ _ _ _ _) rfl 0 (by decide) mX6_step_f9 rfl rfl dX6_step_12 ?_
      refine r_iload_n G 1 rfl rfl dX6_step_15 ?_
      refine e_callVi G (fun a : cS => (a, s.2.1, s.2.2)) (fun x9 => wK_emb ad κ _ _ _ x9 _ _) rfl [.int x1] (qX2_holds hE t ht x1 _) ⟨t, 2, _, _, rfl, (kw_MS ad κ _ _ _ _ ht), rfl⟩ gX6_step_X2_holds rfl hdX2_holds ⟨Nat.le_of_ble_eq_true rfl, Nat.le_of_ble_eq_true rfl⟩ (Nat.le_of_ble_eq_true rfl) rfl ⟨Nat.le_of_ble_eq_true rfl, Nat.le_of_ble_eq_true rfl⟩ rfl rfl dX6_step_16 (fun r1 s1 hp hn1 => ?_)
      obtain ⟨rfl, hs⟩ := hp
      have hs := hs.symm
      subst hs
      refine r_if_eq G (tgt := 36) dX6_step_19 (by decide) (fun c => ?_) (fun c => ?_)
      · rw [if_pos c] at h
        refine r_iinc G (j := 1) rfl (v := x1 + 1) (lv' := [(0, .ref q), (1, .int (x1 + 1))]) rfl [1, 0] rfl (by decide) dX6_step_36 ?_
        refine r_goto G (tgt := 5) dX6_step_39 (by decide) ?_
        exact ih _ _ h
      · rw [if_neg c] at h
        exact hk0 _ _ h
set_option maxHeartbeats 4000000 in
set_option maxRecDepth 100000 in
theorem qX6_step_n {E : evT} {l : Launch} {D : va_G} {ad : Nat → Nat} {q : Nat} {κ : Nat → ClassId} (hE : EvOk E) (t : Nat) (m : Int32) (ht : t < 55) (s : kS) {o : Int32 × kS} (h : fX6_step t m s = some (.inr o)) : Ci l yX6_step wsX6_step rmX6_step_n (wK ad κ q t m) E D (tyA κ) .int [.ref q] s (fun r s2 => o = (r, s2)) := by
  rw [fX6_step] at h
  refine s_i (cc := cX6_step) (nL := 2) (own := RX6) hE (wK_WA ad κ q t m) (plainFor_of_name (by decide)) rfl rfl (Nat.le_of_ble_eq_true rfl) (fun Γ G hret => ?_)
  refine r_aload_n G 0 rfl rfl dX6_step_0 ?_
  refine r_get G (C := RX6) (T := TX6) (N := 4) kX6_step_X6 79 (kw_WALK ad κ _ _ _ _) rfl 2 (by decide) mX6_step_f19 rfl rfl dX6_step_1 ?_
  refine r_istore_n G (lv' := [(0, .ref q), (1, .int s.2.1)]) [1, 0] rfl rfl (by decide) dX6_step_4 ?_
  refine wX6_step_L5_n hE _ _ ht G hret (fun y1_2 s2 h => ?_) (fun s3 h => ?_) 1100 _ _ h
  · try dsimp only at h
    refine r_aload_n G 0 rfl rfl dX6_step_22 ?_
    refine r_iload_n G 1 rfl rfl dX6_step_23 ?_
    refine r_put G (C := RX6) (T := TX6) (N := 4) kX6_step_X6 tyX6 tyX6_ok nmX6 79 (kw_WALK ad κ _ _ _ _) rfl 3 (by decide) mX6_step_f23 rfl rfl (tyX6_ok 3 (by decide)) rfl rfl (Nat.le_of_ble_eq_true rfl) (ku_last ad κ _ _ _ _ _) dX6_step_24 ?_
    refine r_aload_n G 0 rfl rfl dX6_step_27 ?_
    refine r_iload_n G 1 rfl rfl dX6_step_28 ?_
    refine r_iconst G (v := 1) (by decide) dX6_step_29 ?_
    refine r_iadd G dX6_step_30 ?_
    refine r_put G (C := RX6) (T := TX6) (N := 4) kX6_step_X6 tyX6 tyX6_ok nmX6 79 (kw_WALK ad κ _ _ _ _) rfl 2 (by decide) mX6_step_f19 rfl rfl (tyX6_ok 2 (by decide)) rfl rfl (Nat.le_of_ble_eq_true rfl) (ku_next ad κ _ _ _ _ _) dX6_step_31 ?_
    refine r_iload_n G 1 rfl rfl dX6_step_34 ?_
    exact hret _ _ _ _ _ _ dX6_step_35 (Sum.inr.inj (Option.some.inj h)).symm rfl (Nat.le_of_ble_eq_true rfl) (Nat.le_of_ble_eq_true rfl)
  · try dsimp only at h
    cases h
abbrev rmX5_walk : Room := { frames := 2, cells := 1, slots := 4, locals := 42 }
set_option maxRecDepth 20000 in
theorem kX5_walk_X6 : ∀ w ∈ u_ws RX6 TX6 4, w ∈ wsX5_walk := by decide +kernel
set_option maxRecDepth 20000 in
theorem kX5_walk_X5 : ∀ w ∈ u_ws RX5 TX5 1, w ∈ wsX5_walk := by decide +kernel
set_option maxRecDepth 20000 in
theorem mX5_walk_1 : Cond.classLink RX5 26 RX6 ∈ wsX5_walk := by decide +kernel
set_option maxRecDepth 20000 in
theorem mX5_walk_2 : Cond.instantiable RX6 4 ∈ wsX5_walk := by decide +kernel
set_option maxRecDepth 20000 in
theorem mX5_walk_3 : Cond.initialized RX6 ∈ wsX5_walk := by decide +kernel
set_option maxRecDepth 20000 in
theorem mX5_walk_4 : Cond.methodLink RX5 28 yX6_init ∈ wsX5_walk := by decide +kernel
set_option maxRecDepth 20000 in
theorem mX5_walk_5 : Cond.instanceMethod yX6_init ∈ wsX5_walk := by decide +kernel
set_option maxRecDepth 20000 in
theorem mX5_walk_f7 : Cond.fieldLink RX5 7 "SetCouncil$View" "behind" "LSetCouncil$MemberSet;" ∈ wsX5_walk := by decide +kernel
theorem hdX6_init : yX6_init.cls ≠ "java/lang/invoke/MethodHandle" ∧ yX6_init.cls ≠ "java/lang/invoke/VarHandle" ∧ (parseMethodDescriptor yX6_init.desc).map (fun d => d.parameters.length) = some 2 := by decide +kernel
theorem qX5_walk {E : evT} {l : Launch} {D : va_G} {ad : Nat → Nat} {κ : Nat → ClassId} (hE : EvOk E) (v : Nat) (hv : 58 ≤ v ∧ v < 66) (s : cS) : Cn l yX5_walk wsX5_walk rmX5_walk (cW ad κ) E D (tyA κ) [.ref (ad v)] s (.inr (6, [.ref (ad (v - 58)), .int 0, .int 0, .int (-1)])) := by
  refine s_n (cc := cX5_walk) (nL := 1) (own := RX5) hE (cW_WA ad κ) (by decide) rfl rfl (Nat.le_of_ble_eq_true rfl) (fun Γ G hret => ?_)
  refine z_new G (C := RX6) (T := TX6) (N := 4) (ci := 6) (fs := [.null, .int 0, .int 0, .int 0]) kX5_walk_X6 tyX6 tyX6_ok mX5_walk_1 mX5_walk_2 mX5_walk_3 rfl (by decide) (Nat.le_of_ble_eq_true rfl) (Nat.le_of_ble_eq_true rfl) dX5_walk_0 (fun q G => ?_)
  refine r_dup G rfl dX5_walk_3 ?_
  refine r_aload_n G 0 rfl rfl dX5_walk_4 ?_
  refine r_get G (C := RX5) (T := TX5) (N := 1) (ci := 5) (a := ad v) (fs := [.ref (ad (v - 58))]) kX5_walk_X5 v (by show (cW ad κ s ++ _)[v]? = _; rw [List.getElem?_append_left (by rw [cW_len]; omega)]; exact cw_VIEWv ad κ s hv) rfl 0 (by decide) mX5_walk_f7 rfl rfl dX5_walk_5 ?_
  refine r_iconst G (v := 0) (by decide) dX5_walk_8 ?_
  refine z_callI G (P := cW ad κ s) (Q := []) (w0 := [(q, .inr (6, [.null, .int 0, .int 0, .int 0]))]) (by rw [List.append_nil]) [.ref (ad (v - 58)), .int 0] (qX6_init hE rfl rfl) gX5_walk_X6_init rfl mX5_walk_3 mX5_walk_4 mX5_walk_5 rfl hdX6_init ⟨Nat.le_of_ble_eq_true rfl, Nat.le_of_ble_eq_true rfl⟩ (Nat.le_of_ble_eq_true rfl) rfl ⟨Nat.le_of_ble_eq_true rfl, Nat.le_of_ble_eq_true rfl⟩ rfl rfl dX5_walk_9 (fun w1 hw1 G => ?_)
  subst hw1
  rw [List.append_nil] at G ⊢
  exact hret _ _ _ _ _ dX5_walk_12 G (Nat.le_of_ble_eq_true rfl) (Nat.le_of_ble_eq_true rfl)
