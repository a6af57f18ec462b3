abbrev rmX8_clearText : Room := { frames := 0, cells := 0, slots := 0, locals := 0 }
set_option maxRecDepth 20000 in
theorem kX8_clearText_X8 : ∀ w ∈ u_ws RX8 TX8 19, w ∈ wsX8_clearText := by decide +kernel
set_option maxRecDepth 20000 in
theorem mX8_clearText_f3 : Cond.fieldLink RX8 3 "SetCouncilModel" "thrown" "I" ∈ wsX8_clearText := by decide +kernel
set_option maxRecDepth 20000 in
theorem mX8_clearText_f141 : Cond.fieldLink RX8 141 "SetCouncilModel" "textMany" "I" ∈ wsX8_clearText := by decide +kernel
set_option maxHeartbeats 4000000 in
set_option maxRecDepth 100000 in
theorem qX8_clearText {E : evT} {l : Launch} {D : va_G} {bd : Nat → Nat} {κ : Nat → ClassId} (hE : EvOk E) (s : mS) {o : (Int32 × mS)} (h : fX8_clearText s = some o) : Ci l yX8_clearText wsX8_clearText rmX8_clearText (mW bd κ) E D (tyA κ) .int [.ref (bd 67)] s (fun r s2 => o = (r, s2)) := by
  rw [fX8_clearText] at h
  refine s_i (cc := cX8_clearText) (nL := 2) (own := RX8) hE (mW_WA bd κ) (plainFor_of_name (by decide)) rfl rfl (Nat.le_of_ble_eq_true rfl) (fun Γ G hret => ?_)
  refine r_aload_n G 0 rfl rfl dX8_clearText_0 ?_
  refine r_iconst G (v := 0) (by decide) dX8_clearText_1 ?_
  refine r_put G (C := RX8) (T := TX8) (N := 19) kX8_clearText_X8 tyX8 tyX8_ok nmX8 67 (mw_MO bd κ _) rfl 0 (by decide) mX8_clearText_f3 rfl rfl (tyX8_ok 0 (by decide)) rfl rfl (Nat.le_of_ble_eq_true rfl) (mu_thrown bd κ _ _) dX8_clearText_2 ?_
  refine r_aload_n G 0 rfl rfl dX8_clearText_5 ?_
  refine r_get G (C := RX8) (T := TX8) (N := 19) kX8_clearText_X8 67 (mw_MO bd κ _) rfl 9 (by decide) mX8_clearText_f141 rfl rfl dX8_clearText_6 ?_
  refine r_istore_n G (lv' := [(0, .ref (bd 67)), (1, .int (mI (vI s 0 0) 3))]) [1, 0] rfl rfl (by decide) dX8_clearText_9 ?_
  refine r_aload_n G 0 rfl rfl dX8_clearText_10 ?_
  refine r_iconst G (v := 0) (by decide) dX8_clearText_11 ?_
  refine r_put G (C := RX8) (T := TX8) (N := 19) kX8_clearText_X8 tyX8 tyX8_ok nmX8 67 (mw_MO bd κ _) rfl 9 (by decide) mX8_clearText_f141 rfl rfl (tyX8_ok 9 (by decide)) rfl rfl (Nat.le_of_ble_eq_true rfl) (mu_textMany bd κ _ _) dX8_clearText_12 ?_
  refine r_iload_n G 1 rfl rfl dX8_clearText_15 ?_
  exact hret _ _ _ _ _ _ dX8_clearText_16 (Option.some.inj h).symm rfl (Nat.le_of_ble_eq_true rfl) (Nat.le_of_ble_eq_true rfl)
abbrev rmX8_textLength : Room := { frames := 0, cells := 0, slots := 0, locals := 0 }
set_option maxRecDepth 20000 in
theorem kX8_textLength_X8 : ∀ w ∈ u_ws RX8 TX8 19, w ∈ wsX8_textLength := by decide +kernel
set_option maxRecDepth 20000 in
theorem mX8_textLength_f3 : Cond.fieldLink RX8 3 "SetCouncilModel" "thrown" "I" ∈ wsX8_textLength := by decide +kernel
set_option maxRecDepth 20000 in
theorem mX8_textLength_f141 : Cond.fieldLink RX8 141 "SetCouncilModel" "textMany" "I" ∈ wsX8_textLength := by decide +kernel
set_option maxHeartbeats 4000000 in
set_option maxRecDepth 100000 in
theorem qX8_textLength {E : evT} {l : Launch} {D : va_G} {bd : Nat → Nat} {κ : Nat → ClassId} (hE : EvOk E) (s : mS) {o : (Int32 × mS)} (h : fX8_textLength s = some o) : Ci l yX8_textLength wsX8_textLength rmX8_textLength (mW bd κ) E D (tyA κ) .int [.ref (bd 67)] s (fun r s2 => o = (r, s2)) := by
  rw [fX8_textLength] at h
  refine s_i (cc := cX8_textLength) (nL := 1) (own := RX8) hE (mW_WA bd κ) (plainFor_of_name (by decide)) rfl rfl (Nat.le_of_ble_eq_true rfl) (fun Γ G hret => ?_)
  refine r_aload_n G 0 rfl rfl dX8_textLength_0 ?_
  refine r_iconst G (v := 0) (by decide) dX8_textLength_1 ?_
  refine r_put G (C := RX8) (T := TX8) (N := 19) kX8_textLength_X8 tyX8 tyX8_ok nmX8 67 (mw_MO bd κ _) rfl 0 (by decide) mX8_textLength_f3 rfl rfl (tyX8_ok 0 (by decide)) rfl rfl (Nat.le_of_ble_eq_true rfl) (mu_thrown bd κ _ _) dX8_textLength_2 ?_
  refine r_aload_n G 0 rfl rfl dX8_textLength_5 ?_
  refine r_get G (C := RX8) (T := TX8) (N := 19) kX8_textLength_X8 67 (mw_MO bd κ _) rfl 9 (by decide) mX8_textLength_f141 rfl rfl dX8_textLength_6 ?_
  exact hret _ _ _ _ _ _ dX8_textLength_9 (Option.some.inj h).symm rfl (Nat.le_of_ble_eq_true rfl) (Nat.le_of_ble_eq_true rfl)
abbrev rmX8_fails : Room := { frames := 0, cells := 0, slots := 0, locals := 0 }
set_option maxRecDepth 20000 in
theorem kX8_fails_X8 : ∀ w ∈ u_ws RX8 TX8 19, w ∈ wsX8_fails := by decide +kernel
set_option maxRecDepth 20000 in
theorem mX8_fails_f164 : Cond.fieldLink RX8 164 "SetCouncilModel" "errorKind" "I" ∈ wsX8_fails := by decide +kernel
set_option maxRecDepth 20000 in
theorem mX8_fails_f167 : Cond.fieldLink RX8 167 "SetCouncilModel" "errorPlace" "I" ∈ wsX8_fails := by decide +kernel
set_option maxHeartbeats 4000000 in
set_option maxRecDepth 100000 in
theorem qX8_fails {E : evT} {l : Launch} {D : va_G} {bd : Nat → Nat} {κ : Nat → ClassId} (hE : EvOk E) (p0 : Int32) (p1 : Int32) (s : mS) {o : (mS)} (h : fX8_fails p0 p1 s = some o) : Cv l yX8_fails wsX8_fails rmX8_fails (mW bd κ) E D (tyA κ)  [.ref (bd 67), .int p0, .int p1] s (fun s2 => o = s2) := by
  rw [fX8_fails] at h
  refine s_v (cc := cX8_fails) (nL := 3) (own := RX8) hE (mW_WA bd κ) (by decide) rfl rfl (Nat.le_of_ble_eq_true rfl) (fun Γ G hret => ?_)
  refine r_aload_n G 0 rfl rfl dX8_fails_0 ?_
  refine r_get G (C := RX8) (T := TX8) (N := 19) kX8_fails_X8 67 (mw_MO bd κ _) rfl 14 (by decide) mX8_fails_f164 rfl rfl dX8_fails_1 ?_
  refine r_if_ne G (tgt := 17) dX8_fails_4 (by decide) (fun c => ?_) (fun c => ?_)
  · rw [if_neg c] at h
    exact hret _ _ _ _ _ dX8_fails_17 (Option.some.inj h).symm (Nat.le_of_ble_eq_true rfl) (Nat.le_of_ble_eq_true rfl)
  · rw [if_pos c] at h
    refine r_aload_n G 0 rfl rfl dX8_fails_7 ?_
    refine r_iload_n G 1 rfl rfl dX8_fails_8 ?_
    refine r_put G (C := RX8) (T := TX8) (N := 19) kX8_fails_X8 tyX8 tyX8_ok nmX8 67 (mw_MO bd κ _) rfl 14 (by decide) mX8_fails_f164 rfl rfl (tyX8_ok 14 (by decide)) rfl rfl (Nat.le_of_ble_eq_true rfl) (mu_errorKind bd κ _ _) dX8_fails_9 ?_
    refine r_aload_n G 0 rfl rfl dX8_fails_12 ?_
    refine r_iload_n G 2 rfl rfl dX8_fails_13 ?_
    refine r_put G (C := RX8) (T := TX8) (N := 19) kX8_fails_X8 tyX8 tyX8_ok nmX8 67 (mw_MO bd κ _) rfl 15 (by decide) mX8_fails_f167 rfl rfl (tyX8_ok 15 (by decide)) rfl rfl (Nat.le_of_ble_eq_true rfl) (mu_errorPlace bd κ _ _) dX8_fails_14 ?_
    exact hret _ _ _ _ _ dX8_fails_17 (Option.some.inj h).symm (Nat.le_of_ble_eq_true rfl) (Nat.le_of_ble_eq_true rfl)
abbrev rmX8_sign : Room := { frames := 0, cells := 0, slots := 0, locals := 0 }
set_option maxRecDepth 20000 in
theorem kX8_sign_X8 : ∀ w ∈ u_ws RX8 TX8 19, w ∈ wsX8_sign := by decide +kernel
set_option maxRecDepth 20000 in
theorem mX8_sign_f170 : Cond.fieldLink RX8 170 "SetCouncilModel" "at" "I" ∈ wsX8_sign := by decide +kernel
set_option maxRecDepth 20000 in
theorem mX8_sign_f141 : Cond.fieldLink RX8 141 "SetCouncilModel" "textMany" "I" ∈ wsX8_sign := by decide +kernel
set_option maxRecDepth 20000 in
theorem mX8_sign_f43 : Cond.fieldLink RX8 43 "SetCouncilModel" "text" "[I" ∈ wsX8_sign := by decide +kernel
set_option maxHeartbeats 4000000 in
set_option maxRecDepth 100000 in
theorem qX8_sign {E : evT} {l : Launch} {D : va_G} {bd : Nat → Nat} {κ : Nat → ClassId} (hE : EvOk E) (s : mS) {o : (Int32 × mS)} (h : fX8_sign s = some o) : Ci l yX8_sign wsX8_sign rmX8_sign (mW bd κ) E D (tyA κ) .int [.ref (bd 67)] s (fun r s2 => o = (r, s2)) := by
  rw [fX8_sign] at h
  refine s_i (cc := cX8_sign) (nL := 1) (own := RX8) hE (mW_WA bd κ) (plainFor_of_name (by decide)) rfl rfl (Nat.le_of_ble_eq_true rfl) (fun Γ G hret => ?_)
  refine r_aload_n G 0 rfl rfl dX8_sign_0 ?_
  refine r_get G (C := RX8) (T := TX8) (N := 19) kX8_sign_X8 67 (mw_MO bd κ _) rfl 12 (by decide) mX8_sign_f170 rfl rfl dX8_sign_1 ?_
  refine r_aload_n G 0 rfl rfl dX8_sign_4 ?_
  refine r_get G (C := RX8) (T := TX8) (N := 19) kX8_sign_X8 67 (mw_MO bd κ _) rfl 9 (by decide) mX8_sign_f141 rfl rfl dX8_sign_5 ?_
  refine r_icmp_ge G (tgt := 23) dX8_sign_8 (by decide) (fun c => ?_) (fun c => ?_)
  · rw [if_pos c] at h
    refine r_iconst G (v := 0) (by decide) dX8_sign_23 ?_
    exact hret _ _ _ _ _ _ dX8_sign_24 (Option.some.inj h).symm rfl (Nat.le_of_ble_eq_true rfl) (Nat.le_of_ble_eq_true rfl)
  · rw [if_neg c] at h
    refine r_aload_n G 0 rfl rfl dX8_sign_11 ?_
    refine r_get G (C := RX8) (T := TX8) (N := 19) kX8_sign_X8 67 (mw_MO bd κ _) rfl 8 (by decide) mX8_sign_f43 rfl rfl dX8_sign_12 ?_
    refine r_aload_n G 0 rfl rfl dX8_sign_15 ?_
    refine r_get G (C := RX8) (T := TX8) (N := 19) kX8_sign_X8 67 (mw_MO bd κ _) rfl 12 (by decide) mX8_sign_f170 rfl rfl dX8_sign_16 ?_
    obtain ⟨g1, h⟩ := og h
    refine r_iald G 72 3 (mw_MTEXT bd κ _) rfl (vin_in g1) dX8_sign_19 ?_
    refine r_goto G (tgt := 24) dX8_sign_20 (by decide) ?_
    exact hret _ _ _ _ _ _ dX8_sign_24 (Option.some.inj h).symm rfl (Nat.le_of_ble_eq_true rfl) (Nat.le_of_ble_eq_true rfl)
abbrev rmX8_signBehindBlanks : Room := { frames := 1, cells := 0, slots := 0, locals := 20 }
theorem hdX8_sign : yX8_sign.cls = RX8 ∧ yX8_sign.cls ≠ "java/lang/invoke/MethodHandle" ∧ yX8_sign.cls ≠ "java/lang/invoke/VarHandle" ∧ (parseMethodDescriptor yX8_sign.desc).map (fun d => d.parameters.length) = some 0 := by decide +kernel
set_option maxRecDepth 20000 in
theorem kX8_signBehindBlanks_X8 : ∀ w ∈ u_ws RX8 TX8 19, w ∈ wsX8_signBehindBlanks := by decide +kernel
set_option maxRecDepth 20000 in
theorem mX8_signBehindBlanks_f170 : Cond.fieldLink RX8 170 "SetCouncilModel" "at" "I" ∈ wsX8_signBehindBlanks := by decide +kernel
set_option maxHeartbeats 4000000 in
set_option maxRecDepth 100000 in
theorem wX8_signBehindBlanks_L0 {E : evT} {l : Launch} {D : va_G} {bd : Nat → Nat} {κ : Nat → ClassId} (hE : EvOk E) {Γ : cxT} (G : Cx (mW bd κ) D (tyA κ) E l Γ cX8_signBehindBlanks RX8 wsX8_signBehindBlanks 1 rmX8_signBehindBlanks) {o : (Int32 × mS)} (hret : ∀ (st2 : mS) (v : Int32) (cells slots pc : Nat) (lv : List (Nat × Value)), decode cX8_signBehindBlanks pc = .ok (.ireturn, 1) → o = (v, st2) → narrow .int (.int v) = .int v → cells ≤ rmX8_signBehindBlanks.cells → slots ≤ rmX8_signBehindBlanks.slots → V (mW bd κ) D Γ st2 cells slots pc lv [.int v]) {k0 : mS → Option (Int32 × mS)} (hk0 : ∀ (s : mS), k0 s = some o → V (mW bd κ) D Γ s 0 0 31 [(0, .ref (bd 67))] []) : ∀ (fuel : Nat) (s : mS), fX8_signBehindBlanks_L0 k0 fuel s = some o → V (mW bd κ) D Γ s 0 0 0 [(0, .ref (bd 67))] [] := by
  intro fuel
  induction fuel with
  | zero =>
    intro _ h
    have h : none = some o := h
    cases h
  | succ fuel ih =>
    intro s h
    rw [fX8_signBehindBlanks_L0] at h
    refine r_aload_n G 0 rfl rfl dX8_signBehindBlanks_0 ?_
    obtain ⟨o1, e1, h⟩ := ob h
    refine r_callVi G [] (qX8_sign hE _ e1) ⟨67, 8, _, _, rfl, (mw_MO bd κ _), rfl⟩ gX8_signBehindBlanks_X8_sign rfl hdX8_sign ⟨Nat.le_of_ble_eq_true rfl, Nat.le_of_ble_eq_true rfl⟩ (Nat.le_of_ble_eq_true rfl) rfl ⟨Nat.le_of_ble_eq_true rfl, Nat.le_of_ble_eq_true rfl⟩ rfl rfl dX8_signBehindBlanks_1 (fun r1 s1 hp hn1 => ?_)
    subst hp
    try dsimp only at h
    refine r_bipush G (v := 32) (by decide) dX8_signBehindBlanks_4 ?_
    refine r_icmp_eq G (tgt := 18) dX8_signBehindBlanks_6 (by decide) (fun c => ?_) (fun c => ?_)
    · rw [if_pos c] at h
      refine r_aload_n G 0 rfl rfl dX8_signBehindBlanks_18 ?_
      refine r_dup G rfl dX8_signBehindBlanks_19 ?_
      refine r_get G (C := RX8) (T := TX8) (N := 19) kX8_signBehindBlanks_X8 67 (mw_MO bd κ _) rfl 12 (by decide) mX8_signBehindBlanks_f170 rfl rfl dX8_signBehindBlanks_20 ?_
      refine r_iconst G (v := 1) (by decide) dX8_signBehindBlanks_23 ?_
      refine r_iadd G dX8_signBehindBlanks_24 ?_
      refine r_put G (C := RX8) (T := TX8) (N := 19) kX8_signBehindBlanks_X8 tyX8 tyX8_ok nmX8 67 (mw_MO bd κ _) rfl 12 (by decide) mX8_signBehindBlanks_f170 rfl rfl (tyX8_ok 12 (by decide)) rfl rfl (Nat.le_of_ble_eq_true rfl) (mu_at bd κ _ _) dX8_signBehindBlanks_25 ?_
      refine r_goto G (tgt := 0) dX8_signBehindBlanks_28 (by decide) ?_
      exact ih _ h
    · rw [if_neg c] at h
      refine r_aload_n G 0 rfl rfl dX8_signBehindBlanks_9 ?_
      obtain ⟨o2, e2, h⟩ := ob h
      refine r_callVi G [] (qX8_sign hE _ e2) ⟨67, 8, _, _, rfl, (mw_MO bd κ _), rfl⟩ gX8_signBehindBlanks_X8_sign rfl hdX8_sign ⟨Nat.le_of_ble_eq_true rfl, Nat.le_of_ble_eq_true rfl⟩ (Nat.le_of_ble_eq_true rfl) rfl ⟨Nat.le_of_ble_eq_true rfl, Nat.le_of_ble_eq_true rfl⟩ rfl rfl dX8_signBehindBlanks_10 (fun r2 s2 hp hn2 => ?_)
      subst hp
      try dsimp only at h
      refine r_bipush G (v := 10) (by decide) dX8_signBehindBlanks_13 ?_
      refine r_icmp_ne G (tgt := 31) dX8_signBehindBlanks_15 (by decide) (fun c => ?_) (fun c => ?_)
      · rw [if_neg c] at h
        exact hk0 _ h
      · rw [if_pos c] at h
        refine r_aload_n G 0 rfl rfl dX8_signBehindBlanks_18 ?_
        refine r_dup G rfl dX8_signBehindBlanks_19 ?_
        refine r_get G (C := RX8) (T := TX8) (N := 19) kX8_signBehindBlanks_X8 67 (mw_MO bd κ _) rfl 12 (by decide) mX8_signBehindBlanks_f170 rfl rfl dX8_signBehindBlanks_20 ?_
        refine r_iconst G (v := 1) (by decide) dX8_signBehindBlanks_23 ?_
        refine r_iadd G dX8_signBehindBlanks_24 ?_
        refine r_put G (C := RX8) (T := TX8) (N := 19) kX8_signBehindBlanks_X8 tyX8 tyX8_ok nmX8 67 (mw_MO bd κ _) rfl 12 (by decide) mX8_signBehindBlanks_f170 rfl rfl (tyX8_ok 12 (by decide)) rfl rfl (Nat.le_of_ble_eq_true rfl) (mu_at bd κ _ _) dX8_signBehindBlanks_25 ?_
        refine r_goto G (tgt := 0) dX8_signBehindBlanks_28 (by decide) ?_
        exact ih _ h
set_option maxHeartbeats 4000000 in
set_option maxRecDepth 100000 in
theorem qX8_signBehindBlanks {E : evT} {l : Launch} {D : va_G} {bd : Nat → Nat} {κ : Nat → ClassId} (hE : EvOk E) (s : mS) {o : (Int32 × mS)} (h : fX8_signBehindBlanks s = some o) : Ci l yX8_signBehindBlanks wsX8_signBehindBlanks rmX8_signBehindBlanks (mW bd κ) E D (tyA κ) .int [.ref (bd 67)] s (fun r s2 => o = (r, s2)) := by
  rw [fX8_signBehindBlanks] at h
  refine s_i (cc := cX8_signBehindBlanks) (nL := 1) (own := RX8) hE (mW_WA bd κ) (plainFor_of_name (by decide)) rfl rfl (Nat.le_of_ble_eq_true rfl) (fun Γ G hret => ?_)
  refine wX8_signBehindBlanks_L0 hE G hret (fun s3 h => ?_) 1100 _ h
  · try dsimp only at h
    refine r_aload_n G 0 rfl rfl dX8_signBehindBlanks_31 ?_
    obtain ⟨o4, e4, h⟩ := ob h
    refine r_callVi G [] (qX8_sign hE _ e4) ⟨67, 8, _, _, rfl, (mw_MO bd κ _), rfl⟩ gX8_signBehindBlanks_X8_sign rfl hdX8_sign ⟨Nat.le_of_ble_eq_true rfl, Nat.le_of_ble_eq_true rfl⟩ (Nat.le_of_ble_eq_true rfl) rfl ⟨Nat.le_of_ble_eq_true rfl, Nat.le_of_ble_eq_true rfl⟩ rfl rfl dX8_signBehindBlanks_32 (fun r4 s4 hp hn4 => ?_)
    subst hp
    try dsimp only at h
    exact hret _ _ _ _ _ _ dX8_signBehindBlanks_35 (Option.some.inj h).symm rfl (Nat.le_of_ble_eq_true rfl) (Nat.le_of_ble_eq_true rfl)
abbrev rmX8_expects : Room := { frames := 2, cells := 0, slots := 0, locals := 40 }
theorem hdX8_signBehindBlanks : yX8_signBehindBlanks.cls = RX8 ∧ yX8_signBehindBlanks.cls ≠ "java/lang/invoke/MethodHandle" ∧ yX8_signBehindBlanks.cls ≠ "java/lang/invoke/VarHandle" ∧ (parseMethodDescriptor yX8_signBehindBlanks.desc).map (fun d => d.parameters.length) = some 0 := by decide +kernel
set_option maxRecDepth 20000 in
theorem kX8_expects_X8 : ∀ w ∈ u_ws RX8 TX8 19, w ∈ wsX8_expects := by decide +kernel
set_option maxRecDepth 20000 in
theorem mX8_expects_f170 : Cond.fieldLink RX8 170 "SetCouncilModel" "at" "I" ∈ wsX8_expects := by decide +kernel
theorem hdX8_fails : yX8_fails.cls = RX8 ∧ yX8_fails.cls ≠ "java/lang/invoke/MethodHandle" ∧ yX8_fails.cls ≠ "java/lang/invoke/VarHandle" ∧ (parseMethodDescriptor yX8_fails.desc).map (fun d => d.parameters.length) = some 2 := by decide +kernel
set_option maxHeartbeats 4000000 in
set_option maxRecDepth 100000 in
theorem qX8_expects {E : evT} {l : Launch} {D : va_G} {bd : Nat → Nat} {κ : Nat → ClassId} (hE : EvOk E) (p0 : Int32) (s : mS) {o : (mS)} (h : fX8_expects p0 s = some o) : Cv l yX8_expects wsX8_expects rmX8_expects (mW bd κ) E D (tyA κ)  [.ref (bd 67), .int p0] s (fun s2 => o = s2) := by
  rw [fX8_expects] at h
  refine s_v (cc := cX8_expects) (nL := 2) (own := RX8) hE (mW_WA bd κ) (by decide) rfl rfl (Nat.le_of_ble_eq_true rfl) (fun Γ G hret => ?_)
  refine r_aload_n G 0 rfl rfl dX8_expects_0 ?_
  obtain ⟨o1, e1, h⟩ := ob h
  refine r_callVi G [] (qX8_signBehindBlanks hE _ e1) ⟨67, 8, _, _, rfl, (mw_MO bd κ _), rfl⟩ gX8_expects_X8_signBehindBlanks rfl hdX8_signBehindBlanks ⟨Nat.le_of_ble_eq_true rfl, Nat.le_of_ble_eq_true rfl⟩ (Nat.le_of_ble_eq_true rfl) rfl ⟨Nat.le_of_ble_eq_true rfl, Nat.le_of_ble_eq_true rfl⟩ rfl rfl dX8_expects_1 (fun r1 s1 hp hn1 => ?_)
  subst hp
  try dsimp only at h
  refine r_iload_n G 1 rfl rfl dX8_expects_4 ?_
  refine r_icmp_ne G (tgt := 21) dX8_expects_5 (by decide) (fun c => ?_) (fun c => ?_)
  · rw [if_neg c] at h
    refine r_aload_n G 0 rfl rfl dX8_expects_21 ?_
    refine r_iconst G (v := 1) (by decide) dX8_expects_22 ?_
    refine r_aload_n G 0 rfl rfl dX8_expects_23 ?_
    refine r_get G (C := RX8) (T := TX8) (N := 19) kX8_expects_X8 67 (mw_MO bd κ _) rfl 12 (by decide) mX8_expects_f170 rfl rfl dX8_expects_24 ?_
    obtain ⟨o2, e2, h⟩ := ob h
    refine r_callVv G [.int 1, .int (mI s1 5)] (qX8_fails hE (1 : Int32) (mI s1 5) _ e2) ⟨67, 8, _, _, rfl, (mw_MO bd κ _), rfl⟩ gX8_expects_X8_fails rfl hdX8_fails ⟨Nat.le_of_ble_eq_true rfl, Nat.le_of_ble_eq_true rfl⟩ (Nat.le_of_ble_eq_true rfl) rfl ⟨Nat.le_of_ble_eq_true rfl, Nat.le_of_ble_eq_true rfl⟩ rfl rfl dX8_expects_27 (fun s2 hp => ?_)
    have hp := hp.symm
    subst hp
    try dsimp only at h
    exact hret _ _ _ _ _ dX8_expects_30 (Option.some.inj h).symm (Nat.le_of_ble_eq_true rfl) (Nat.le_of_ble_eq_true rfl)
  · rw [if_pos c] at h
    refine r_aload_n G 0 rfl rfl dX8_expects_8 ?_
    refine r_dup G rfl dX8_expects_9 ?_
    refine r_get G (C := RX8) (T := TX8) (N := 19) kX8_expects_X8 67 (mw_MO bd κ _) rfl 12 (by decide) mX8_expects_f170 rfl rfl dX8_expects_10 ?_
    refine r_iconst G (v := 1) (by decide) dX8_expects_13 ?_
    refine r_iadd G dX8_expects_14 ?_
    refine r_put G (C := RX8) (T := TX8) (N := 19) kX8_expects_X8 tyX8 tyX8_ok nmX8 67 (mw_MO bd κ _) rfl 12 (by decide) mX8_expects_f170 rfl rfl (tyX8_ok 12 (by decide)) rfl rfl (Nat.le_of_ble_eq_true rfl) (mu_at bd κ _ _) dX8_expects_15 ?_
    refine r_goto G (tgt := 30) dX8_expects_18 (by decide) ?_
    exact hret _ _ _ _ _ dX8_expects_30 (Option.some.inj h).symm (Nat.le_of_ble_eq_true rfl) (Nat.le_of_ble_eq_true rfl)
