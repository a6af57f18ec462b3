abbrev rmX8_number : Room := { frames := 1, cells := 0, slots := 0, locals := 22 }
set_option maxRecDepth 20000 in
theorem kX8_number_X8 : ∀ w ∈ u_ws RX8 TX8 19, w ∈ wsX8_number := by decide +kernel
set_option maxRecDepth 20000 in
theorem mX8_number_f170 : Cond.fieldLink RX8 170 "SetCouncilModel" "at" "I" ∈ wsX8_number := by decide +kernel
set_option maxRecDepth 20000 in
theorem mX8_number_mml : Cond.methodLink RX8 183 Lib.Math.min.name ∈ wsX8_number := by decide +kernel
set_option maxRecDepth 20000 in
theorem mX8_number_mms : Cond.static Lib.Math.min.name ∈ wsX8_number := by decide +kernel
set_option maxRecDepth 20000 in
theorem mX8_number_mmi : Cond.initialized "java/lang/Math" ∈ wsX8_number := by decide +kernel
set_option maxRecDepth 20000 in
theorem mX8_number_mmc : Cond.code Lib.Math.min.name Lib.Math.min.code 2 (some .int) ∈ wsX8_number := by decide +kernel
set_option maxHeartbeats 4000000 in
set_option maxRecDepth 100000 in
theorem wX8_number_L65 {E : evT} {l : Launch} {D : va_G} {bd : Nat → Nat} {κ : Nat → ClassId} (hE : EvOk E) {Γ : cxT} (G : Cx (mW bd κ) D (tyA κ) E l Γ cX8_number RX8 wsX8_number 4 rmX8_number) (x1 : Int32) (x2 : Int32) {o : (Int32 × mS)} (hret : ∀ (st2 : mS) (v : Int32) (cells slots pc : Nat) (lv : List (Nat × Value)), decode cX8_number pc = .ok (.ireturn, 1) → o = (v, st2) → narrow .int (.int v) = .int v → cells ≤ rmX8_number.cells → slots ≤ rmX8_number.slots → V (mW bd κ) D Γ st2 cells slots pc lv [.int v]) {k0 : Int32 → mS → Option (Int32 × mS)} (hk0 : ∀ (y3 : Int32) (s : mS), k0 y3 s = some o → V (mW bd κ) D Γ s 0 0 110 [(0, .ref (bd 67)), (1, .int x1), (2, .int x2), (3, .int y3)] []) : ∀ (fuel : Nat) (x3 : Int32) (s : mS), fX8_number_L65 x1 x2 k0 fuel x3 s = some o → V (mW bd κ) D Γ s 0 0 65 [(0, .ref (bd 67)), (1, .int x1), (2, .int x2), (3, .int x3)] [] := by
  intro fuel
  induction fuel with
  | zero =>
    intro _ _ h
    have h : none = some o := h
    cases h
  | succ fuel ih =>
    intro x3 s h
    rw [fX8_number_L65] at h
    refine r_aload_n G 0 rfl rfl dX8_number_65 ?_
    obtain ⟨o4, e4, h⟩ := ob h
    refine r_callVi G [] (qX8_sign hE _ e4) ⟨67, 8, _, _, rfl, (mw_MO bd κ _), rfl⟩ gX8_number_X8_sign rfl hdX8_sign ⟨Nat.le_of_ble_eq_true rfl, Nat.le_of_ble_eq_true rfl⟩ (Nat.le_of_ble_eq_true rfl) rfl ⟨Nat.le_of_ble_eq_true rfl, Nat.le_of_ble_eq_true rfl⟩ rfl rfl dX8_number_66 (fun r4 s4 hp hn4 => ?_)
    subst hp
    try dsimp only at h
    refine r_bipush G (v := 48) (by decide) dX8_number_69 ?_
    refine r_bipush G (v := 57) (by decide) dX8_number_71 ?_
    refine r_callSi G [.int r4, .int 48, .int 57] (qX8_in hE r4 (48 : Int32) (57 : Int32) _) gX8_number_X8_in rfl hdX8_in ⟨Nat.le_of_ble_eq_true rfl, Nat.le_of_ble_eq_true rfl⟩ (Nat.le_of_ble_eq_true rfl) rfl ⟨Nat.le_of_ble_eq_true rfl, Nat.le_of_ble_eq_true rfl⟩ rfl rfl dX8_number_73 (fun r5 s5 hp hn5 => ?_)
    obtain ⟨rfl, hs⟩ := hp
    have hs := hs.symm
    subst hs
    refine r_if_eq G (tgt := 110) dX8_number_76 (by decide) (fun c => ?_) (fun c => ?_)
    · rw [if_pos c] at h
      exact hk0 _ _ h
    · rw [if_neg c] at h
      refine r_bipush G (v := 10) (by decide) dX8_number_79 ?_
      refine r_iload_n G 3 rfl rfl dX8_number_81 ?_
      refine r_imul G dX8_number_82 ?_
      refine r_aload_n G 0 rfl rfl dX8_number_83 ?_
      obtain ⟨o6, e6, h⟩ := ob h
      refine r_callVi G [] (qX8_sign hE _ e6) ⟨67, 8, _, _, rfl, (mw_MO bd κ _), rfl⟩ gX8_number_X8_sign rfl hdX8_sign ⟨Nat.le_of_ble_eq_true rfl, Nat.le_of_ble_eq_true rfl⟩ (Nat.le_of_ble_eq_true rfl) rfl ⟨Nat.le_of_ble_eq_true rfl, Nat.le_of_ble_eq_true rfl⟩ rfl rfl dX8_number_84 (fun r6 s6 hp hn6 => ?_)
      subst hp
      try dsimp only at h
      refine r_iadd G dX8_number_87 ?_
      refine r_bipush G (v := 48) (by decide) dX8_number_88 ?_
      refine r_isub G dX8_number_90 ?_
      refine r_bipush G (v := 51) (by decide) dX8_number_91 ?_
      refine r_mmin G mX8_number_mml mX8_number_mms mX8_number_mmi mX8_number_mmc (Nat.le_of_ble_eq_true rfl) (Nat.le_of_ble_eq_true rfl) (Nat.le_of_ble_eq_true rfl) (Nat.le_of_ble_eq_true rfl) dX8_number_93 ?_
      refine r_istore_n G (lv' := [(0, .ref (bd 67)), (1, .int x1), (2, .int x2), (3, .int (if 51 < (((10 * x3) + r6) - 48) then 51 else (((10 * x3) + r6) - 48)))]) [1, 2, 3, 0] rfl rfl (by decide) dX8_number_96 ?_
      refine r_aload_n G 0 rfl rfl dX8_number_97 ?_
      refine r_dup G rfl dX8_number_98 ?_
      refine r_get G (C := RX8) (T := TX8) (N := 19) kX8_number_X8 67 (mw_MO bd κ _) rfl 12 (by decide) mX8_number_f170 rfl rfl dX8_number_99 ?_
      refine r_iconst G (v := 1) (by decide) dX8_number_102 ?_
      refine r_iadd G dX8_number_103 ?_
      refine r_put G (C := RX8) (T := TX8) (N := 19) kX8_number_X8 tyX8 tyX8_ok nmX8 67 (mw_MO bd κ _) rfl 12 (by decide) mX8_number_f170 rfl rfl (tyX8_ok 12 (by decide)) rfl rfl (Nat.le_of_ble_eq_true rfl) (mu_at bd κ _ _) dX8_number_104 ?_
      refine r_goto G (tgt := 65) dX8_number_107 (by decide) ?_
      exact ih _ _ h
set_option maxHeartbeats 4000000 in
set_option maxRecDepth 100000 in
theorem qX8_number {E : evT} {l : Launch} {D : va_G} {bd : Nat → Nat} {κ : Nat → ClassId} (hE : EvOk E) (s : mS) {o : (Int32 × mS)} (h : fX8_number s = some o) : Ci l yX8_number wsX8_number rmX8_number (mW bd κ) E D (tyA κ) .int [.ref (bd 67)] s (fun r s2 => o = (r, s2)) := by
  rw [fX8_number] at h
  refine s_i (cc := cX8_number) (nL := 4) (own := RX8) hE (mW_WA bd κ) (plainFor_of_name (by decide)) rfl rfl (Nat.le_of_ble_eq_true rfl) (fun Γ G hret => ?_)
  refine r_aload_n G 0 rfl rfl dX8_number_0 ?_
  refine r_get G (C := RX8) (T := TX8) (N := 19) kX8_number_X8 67 (mw_MO bd κ _) rfl 12 (by decide) mX8_number_f170 rfl rfl dX8_number_1 ?_
  refine r_istore_n G (lv' := [(0, .ref (bd 67)), (1, .int (mI s 5))]) [1, 0] rfl rfl (by decide) dX8_number_4 ?_
  refine r_aload_n G 0 rfl rfl dX8_number_5 ?_
  obtain ⟨o1, e1, h⟩ := ob h
  refine r_callVi G [] (qX8_sign hE _ e1) ⟨67, 8, _, _, rfl, (mw_MO bd κ _), rfl⟩ gX8_number_X8_sign rfl hdX8_sign ⟨Nat.le_of_ble_eq_true rfl, Nat.le_of_ble_eq_true rfl⟩ (Nat.le_of_ble_eq_true rfl) rfl ⟨Nat.le_of_ble_eq_true rfl, Nat.le_of_ble_eq_true rfl⟩ rfl rfl dX8_number_6 (fun r1 s1 hp hn1 => ?_)
  subst hp
  try dsimp only at h
  refine r_bipush G (v := 45) (by decide) dX8_number_9 ?_
  refine r_icmp_ne G (tgt := 18) dX8_number_11 (by decide) (fun c => ?_) (fun c => ?_)
  · rw [if_neg c] at h
    refine r_iconst G (v := 0) (by decide) dX8_number_18 ?_
    refine r_istore_n G (lv' := [(0, .ref (bd 67)), (1, .int (mI s 5)), (2, .int 0)]) [1, 2, 0] rfl rfl (by decide) dX8_number_19 ?_
    refine r_aload_n G 0 rfl rfl dX8_number_20 ?_
    refine r_dup G rfl dX8_number_21 ?_
    refine r_get G (C := RX8) (T := TX8) (N := 19) kX8_number_X8 67 (mw_MO bd κ _) rfl 12 (by decide) mX8_number_f170 rfl rfl dX8_number_22 ?_
    refine r_iload_n G 2 rfl rfl dX8_number_25 ?_
    refine r_if_eq G (tgt := 33) dX8_number_26 (by decide) (fun _ => ?_) (fun c => absurd (by decide) c)
    refine r_iconst G (v := 0) (by decide) dX8_number_33 ?_
    refine r_iadd G dX8_number_34 ?_
    refine r_put G (C := RX8) (T := TX8) (N := 19) kX8_number_X8 tyX8 tyX8_ok nmX8 67 (mw_MO bd κ _) rfl 12 (by decide) mX8_number_f170 rfl rfl (tyX8_ok 12 (by decide)) rfl rfl (Nat.le_of_ble_eq_true rfl) (mu_at bd κ _ _) dX8_number_35 ?_
    refine r_aload_n G 0 rfl rfl dX8_number_38 ?_
    obtain ⟨o2, e2, h⟩ := ob h
    refine r_callVi G [] (qX8_sign hE _ e2) ⟨67, 8, _, _, rfl, (mw_MO bd κ _), rfl⟩ gX8_number_X8_sign rfl hdX8_sign ⟨Nat.le_of_ble_eq_true rfl, Nat.le_of_ble_eq_true rfl⟩ (Nat.le_of_ble_eq_true rfl) rfl ⟨Nat.le_of_ble_eq_true rfl, Nat.le_of_ble_eq_true rfl⟩ rfl rfl dX8_number_39 (fun r2 s2 hp hn2 => ?_)
    subst hp
    try dsimp only at h
    refine r_bipush G (v := 48) (by decide) dX8_number_42 ?_
    refine r_bipush G (v := 57) (by decide) dX8_number_44 ?_
    refine r_callSi G [.int r2, .int 48, .int 57] (qX8_in hE r2 (48 : Int32) (57 : Int32) _) gX8_number_X8_in rfl hdX8_in ⟨Nat.le_of_ble_eq_true rfl, Nat.le_of_ble_eq_true rfl⟩ (Nat.le_of_ble_eq_true rfl) rfl ⟨Nat.le_of_ble_eq_true rfl, Nat.le_of_ble_eq_true rfl⟩ rfl rfl dX8_number_46 (fun r3 s3 hp hn3 => ?_)
    obtain ⟨rfl, hs⟩ := hp
    have hs := hs.symm
    subst hs
    refine r_if_ne G (tgt := 63) dX8_number_49 (by decide) (fun c => ?_) (fun c => ?_)
    · rw [if_neg c] at h
      refine r_iconst G (v := 0) (by decide) dX8_number_63 ?_
      refine r_istore_n G (lv' := [(0, .ref (bd 67)), (1, .int (mI s 5)), (2, .int 0), (3, .int 0)]) [1, 2, 3, 0] rfl rfl (by decide) dX8_number_64 ?_
      refine wX8_number_L65 hE G _ _ hret (fun y3_7 s7 h => ?_) 1100 _ _ h
      · try dsimp only at h
        refine r_iload_n G 3 rfl rfl dX8_number_110 ?_
        refine r_bipush G (v := 50) (by decide) dX8_number_111 ?_
        refine r_icmp_le G (tgt := 122) dX8_number_113 (by decide) (fun c => ?_) (fun c => ?_)
        · rw [if_pos c] at h
          refine r_iload_n G 2 rfl rfl dX8_number_122 ?_
          refine r_if_eq G (tgt := 131) dX8_number_123 (by decide) (fun _ => ?_) (fun c => absurd (by decide) c)
          refine r_iload_n G 3 rfl rfl dX8_number_131 ?_
          exact hret _ _ _ _ _ _ dX8_number_132 (Option.some.inj h).symm rfl (Nat.le_of_ble_eq_true rfl) (Nat.le_of_ble_eq_true rfl)
        · rw [if_neg c] at h
          refine r_aload_n G 0 rfl rfl dX8_number_116 ?_
          refine r_iconst G (v := 2) (by decide) dX8_number_117 ?_
          refine r_iload_n G 1 rfl rfl dX8_number_118 ?_
          obtain ⟨o8, e8, h⟩ := ob h
          refine r_callVv G [.int 2, .int (mI s 5)] (qX8_fails hE (2 : Int32) (mI s 5) _ e8) ⟨67, 8, _, _, rfl, (mw_MO bd κ _), rfl⟩ gX8_number_X8_fails rfl hdX8_fails ⟨Nat.le_of_ble_eq_true rfl, Nat.le_of_ble_eq_true rfl⟩ (Nat.le_of_ble_eq_true rfl) rfl ⟨Nat.le_of_ble_eq_true rfl, Nat.le_of_ble_eq_true rfl⟩ rfl rfl dX8_number_119 (fun s8 hp => ?_)
          have hp := hp.symm
          subst hp
          try dsimp only at h
          refine r_iload_n G 2 rfl rfl dX8_number_122 ?_
          refine r_if_eq G (tgt := 131) dX8_number_123 (by decide) (fun _ => ?_) (fun c => absurd (by decide) c)
          refine r_iload_n G 3 rfl rfl dX8_number_131 ?_
          exact hret _ _ _ _ _ _ dX8_number_132 (Option.some.inj h).symm rfl (Nat.le_of_ble_eq_true rfl) (Nat.le_of_ble_eq_true rfl)
    · rw [if_pos c] at h
      refine r_aload_n G 0 rfl rfl dX8_number_52 ?_
      refine r_iconst G (v := 1) (by decide) dX8_number_53 ?_
      refine r_aload_n G 0 rfl rfl dX8_number_54 ?_
      refine r_get G (C := RX8) (T := TX8) (N := 19) kX8_number_X8 67 (mw_MO bd κ _) rfl 12 (by decide) mX8_number_f170 rfl rfl dX8_number_55 ?_
      obtain ⟨o9, e9, h⟩ := ob h
      refine r_callVv G [.int 1, .int (mI s2 5)] (qX8_fails hE (1 : Int32) (mI s2 5) _ e9) ⟨67, 8, _, _, rfl, (mw_MO bd κ _), rfl⟩ gX8_number_X8_fails rfl hdX8_fails ⟨Nat.le_of_ble_eq_true rfl, Nat.le_of_ble_eq_true rfl⟩ (Nat.le_of_ble_eq_true rfl) rfl ⟨Nat.le_of_ble_eq_true rfl, Nat.le_of_ble_eq_true rfl⟩ rfl rfl dX8_number_58 (fun s9 hp => ?_)
      have hp := hp.symm
      subst hp
      try dsimp only at h
      refine r_iconst G (v := 0) (by decide) dX8_number_61 ?_
      exact hret _ _ _ _ _ _ dX8_number_62 (Option.some.inj h).symm rfl (Nat.le_of_ble_eq_true rfl) (Nat.le_of_ble_eq_true rfl)
  · rw [if_pos c] at h
    refine r_iconst G (v := 1) (by decide) dX8_number_14 ?_
    refine r_goto G (tgt := 19) dX8_number_15 (by decide) ?_
    refine r_istore_n G (lv' := [(0, .ref (bd 67)), (1, .int (mI s 5)), (2, .int 1)]) [1, 2, 0] rfl rfl (by decide) dX8_number_19 ?_
    refine r_aload_n G 0 rfl rfl dX8_number_20 ?_
    refine r_dup G rfl dX8_number_21 ?_
    refine r_get G (C := RX8) (T := TX8) (N := 19) kX8_number_X8 67 (mw_MO bd κ _) rfl 12 (by decide) mX8_number_f170 rfl rfl dX8_number_22 ?_
    refine r_iload_n G 2 rfl rfl dX8_number_25 ?_
    refine r_if_eq G (tgt := 33) dX8_number_26 (by decide) (fun c => absurd c (by decide)) (fun _ => ?_)
    refine r_iconst G (v := 1) (by decide) dX8_number_29 ?_
    refine r_goto G (tgt := 34) dX8_number_30 (by decide) ?_
    refine r_iadd G dX8_number_34 ?_
    refine r_put G (C := RX8) (T := TX8) (N := 19) kX8_number_X8 tyX8 tyX8_ok nmX8 67 (mw_MO bd κ _) rfl 12 (by decide) mX8_number_f170 rfl rfl (tyX8_ok 12 (by decide)) rfl rfl (Nat.le_of_ble_eq_true rfl) (mu_at bd κ _ _) dX8_number_35 ?_
    refine r_aload_n G 0 rfl rfl dX8_number_38 ?_
    obtain ⟨o10, e10, h⟩ := ob h
    refine r_callVi G [] (qX8_sign hE _ e10) ⟨67, 8, _, _, rfl, (mw_MO bd κ _), rfl⟩ gX8_number_X8_sign rfl hdX8_sign ⟨Nat.le_of_ble_eq_true rfl, Nat.le_of_ble_eq_true rfl⟩ (Nat.le_of_ble_eq_true rfl) rfl ⟨Nat.le_of_ble_eq_true rfl, Nat.le_of_ble_eq_true rfl⟩ rfl rfl dX8_number_39 (fun r10 s10 hp hn10 => ?_)
    subst hp
    try dsimp only at h
    refine r_bipush G (v := 48) (by decide) dX8_number_42 ?_
    refine r_bipush G (v := 57) (by decide) dX8_number_44 ?_
    refine r_callSi G [.int r10, .int 48, .int 57] (qX8_in hE r10 (48 : Int32) (57 : Int32) _) gX8_number_X8_in rfl hdX8_in ⟨Nat.le_of_ble_eq_true rfl, Nat.le_of_ble_eq_true rfl⟩ (Nat.le_of_ble_eq_true rfl) rfl ⟨Nat.le_of_ble_eq_true rfl, Nat.le_of_ble_eq_true rfl⟩ rfl rfl dX8_number_46 (fun r11 s11 hp hn11 => ?_)
    obtain ⟨rfl, hs⟩ := hp
    have hs := hs.symm
    subst hs
    refine r_if_ne G (tgt := 63) dX8_number_49 (by decide) (fun c => ?_) (fun c => ?_)
    · rw [if_neg c] at h
      refine r_iconst G (v := 0) (by decide) dX8_number_63 ?_
      refine r_istore_n G (lv' := [(0, .ref (bd 67)), (1, .int (mI s 5)), (2, .int 1), (3, .int 0)]) [1, 2, 3, 0] rfl rfl (by decide) dX8_number_64 ?_
      refine wX8_number_L65 hE G _ _ hret (fun y3_12 s12 h => ?_) 1100 _ _ h
      · try dsimp only at h
        refine r_iload_n G 3 rfl rfl dX8_number_110 ?_
        refine r_bipush G (v := 50) (by decide) dX8_number_111 ?_
        refine r_icmp_le G (tgt := 122) dX8_number_113 (by decide) (fun c => ?_) (fun c => ?_)
        · rw [if_pos c] at h
          refine r_iload_n G 2 rfl rfl dX8_number_122 ?_
          refine r_if_eq G (tgt := 131) dX8_number_123 (by decide) (fun c => absurd c (by decide)) (fun _ => ?_)
          refine r_iload_n G 3 rfl rfl dX8_number_126 ?_
          refine r_ineg G dX8_number_127 ?_
          refine r_goto G (tgt := 132) dX8_number_128 (by decide) ?_
          exact hret _ _ _ _ _ _ dX8_number_132 (Option.some.inj h).symm rfl (Nat.le_of_ble_eq_true rfl) (Nat.le_of_ble_eq_true rfl)
        · rw [if_neg c] at h
          refine r_aload_n G 0 rfl rfl dX8_number_116 ?_
          refine r_iconst G (v := 2) (by decide) dX8_number_117 ?_
          refine r_iload_n G 1 rfl rfl dX8_number_118 ?_
          obtain ⟨o13, e13, h⟩ := ob h
          refine r_callVv G [.int 2, .int (mI s 5)] (qX8_fails hE (2 : Int32) (mI s 5) _ e13) ⟨67, 8, _, _, rfl, (mw_MO bd κ _), rfl⟩ gX8_number_X8_fails rfl hdX8_fails ⟨Nat.le_of_ble_eq_true rfl, Nat.le_of_ble_eq_true rfl⟩ (Nat.le_of_ble_eq_true rfl) rfl ⟨Nat.le_of_ble_eq_true rfl, Nat.le_of_ble_eq_true rfl⟩ rfl rfl dX8_number_119 (fun s13 hp => ?_)
          have hp := hp.symm
          subst hp
          try dsimp only at h
          refine r_iload_n G 2 rfl rfl dX8_number_122 ?_
          refine r_if_eq G (tgt := 131) dX8_number_123 (by decide) (fun c => absurd c (by decide)) (fun _ => ?_)
          refine r_iload_n G 3 rfl rfl dX8_number_126 ?_
          refine r_ineg G dX8_number_127 ?_
          refine r_goto G (tgt := 132) dX8_number_128 (by decide) ?_
          exact hret _ _ _ _ _ _ dX8_number_132 (Option.some.inj h).symm rfl (Nat.le_of_ble_eq_true rfl) (Nat.le_of_ble_eq_true rfl)
    · rw [if_pos c] at h
      refine r_aload_n G 0 rfl rfl dX8_number_52 ?_
      refine r_iconst G (v := 1) (by decide) dX8_number_53 ?_
      refine r_aload_n G 0 rfl rfl dX8_number_54 ?_
      refine r_get G (C := RX8) (T := TX8) (N := 19) kX8_number_X8 67 (mw_MO bd κ _) rfl 12 (by decide) mX8_number_f170 rfl rfl dX8_number_55 ?_
      obtain ⟨o14, e14, h⟩ := ob h
      refine r_callVv G [.int 1, .int (mI s10 5)] (qX8_fails hE (1 : Int32) (mI s10 5) _ e14) ⟨67, 8, _, _, rfl, (mw_MO bd κ _), rfl⟩ gX8_number_X8_fails rfl hdX8_fails ⟨Nat.le_of_ble_eq_true rfl, Nat.le_of_ble_eq_true rfl⟩ (Nat.le_of_ble_eq_true rfl) rfl ⟨Nat.le_of_ble_eq_true rfl, Nat.le_of_ble_eq_true rfl⟩ rfl rfl dX8_number_58 (fun s14 hp => ?_)
      have hp := hp.symm
      subst hp
      try dsimp only at h
      refine r_iconst G (v := 0) (by decide) dX8_number_61 ?_
      exact hret _ _ _ _ _ _ dX8_number_62 (Option.some.inj h).symm rfl (Nat.le_of_ble_eq_true rfl) (Nat.le_of_ble_eq_true rfl)
