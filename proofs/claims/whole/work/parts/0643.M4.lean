abbrev rmX8_item : Room := { frames := 2, cells := 0, slots := 0, locals := 45 }
theorem hdX8_number : yX8_number.cls = RX8 ∧ yX8_number.cls ≠ "java/lang/invoke/MethodHandle" ∧ yX8_number.cls ≠ "java/lang/invoke/VarHandle" ∧ (parseMethodDescriptor yX8_number.desc).map (fun d => d.parameters.length) = some 0 := by decide +kernel
set_option maxRecDepth 20000 in
theorem kX8_item_X8 : ∀ w ∈ u_ws RX8 TX8 19, w ∈ wsX8_item := by decide +kernel
set_option maxRecDepth 20000 in
theorem mX8_item_f164 : Cond.fieldLink RX8 164 "SetCouncilModel" "errorKind" "I" ∈ wsX8_item := by decide +kernel
set_option maxHeartbeats 4000000 in
set_option maxRecDepth 100000 in
theorem wX8_item_L125 {E : evT} {l : Launch} {D : va_G} {bd : Nat → Nat} {κ : Nat → ClassId} (hE : EvOk E) {Γ : cxT} (G : Cx (mW bd κ) D (tyA κ) E l Γ cX8_item RX8 wsX8_item 6 rmX8_item) (z1 : Nat) (hz1 : z1 < 67) (x3 : Int32) {o : (mS)} (hret : ∀ (st2 : mS) (cells slots pc : Nat) (lv : List (Nat × Value)), decode cX8_item pc = .ok (.return_, 1) → o = st2 → cells ≤ rmX8_item.cells → slots ≤ rmX8_item.slots → V (mW bd κ) D Γ st2 cells slots pc lv []) : ∀ (fuel : Nat) (x4 : Int32) (s : mS), fX8_item_L125 z1 x3 fuel x4 s = some o → V (mW bd κ) D Γ s 0 0 125 [(0, .ref (bd 67)), (1, .ref (bd z1)), (3, .int x3), (4, .int x4)] [] := by
  intro fuel
  induction fuel with
  | zero =>
    intro _ _ h
    have h : none = some o := h
    cases h
  | succ fuel ih =>
    intro x4 s h
    rw [fX8_item_L125] at h
    refine r_aload_n G 0 rfl rfl dX8_item_125 ?_
    refine r_get G (C := RX8) (T := TX8) (N := 19) kX8_item_X8 67 (mw_MO bd κ _) rfl 14 (by decide) mX8_item_f164 rfl rfl dX8_item_126 ?_
    refine r_if_ne G (tgt := 152) dX8_item_129 (by decide) (fun c => ?_) (fun c => ?_)
    · rw [if_neg c] at h
      exact hret _ _ _ _ _ dX8_item_152 (Option.some.inj h).symm (Nat.le_of_ble_eq_true rfl) (Nat.le_of_ble_eq_true rfl)
    · rw [if_pos c] at h
      refine r_iload G 3 rfl dX8_item_132 ?_
      refine r_iload_n G 2 rfl rfl dX8_item_134 ?_
      refine r_icmp_gt G (tgt := 152) dX8_item_135 (by decide) (fun c => ?_) (fun c => ?_)
      · rw [if_pos c] at h
        exact hret _ _ _ _ _ dX8_item_152 (Option.some.inj h).symm (Nat.le_of_ble_eq_true rfl) (Nat.le_of_ble_eq_true rfl)
      · rw [if_neg c] at h
        refine r_aload_n G 1 rfl rfl dX8_item_138 ?_
        refine r_iload G 3 rfl dX8_item_139 ?_
        refine r_callSi G [.int x4] (qX8_placeOfMember hE x4 _) gX8_item_X8_placeOfMember rfl hdX8_placeOfMember ⟨Nat.le_of_ble_eq_true rfl, Nat.le_of_ble_eq_true rfl⟩ (Nat.le_of_ble_eq_true rfl) rfl ⟨Nat.le_of_ble_eq_true rfl, Nat.le_of_ble_eq_true rfl⟩ rfl rfl dX8_item_141 (fun r3 s3 hp hn3 => ?_)
        obtain ⟨rfl, hs⟩ := hp
        have hs := hs.symm
        subst hs
        refine r_iconst G (v := 1) (by decide) dX8_item_144 ?_
        obtain ⟨g4, h⟩ := og h
        refine r_zast G z1 4 (mw_ROW bd κ _ hz1) rfl (vin_in g4) (mu_ROW bd κ _ hz1 _ _) dX8_item_145 ?_
        refine r_iinc G (j := 3) rfl (v := x4 + 1) (lv' := [(0, .ref (bd 67)), (1, .ref (bd z1)), (3, .int x3), (4, .int (x4 + 1))]) rfl [1, 2, 3, 0] rfl (by decide) dX8_item_146 ?_
        refine r_goto G (tgt := 125) dX8_item_149 (by decide) ?_
        exact ih _ _ h
set_option maxRecDepth 20000 in
theorem mX8_item_f170 : Cond.fieldLink RX8 170 "SetCouncilModel" "at" "I" ∈ wsX8_item := by decide +kernel
set_option maxHeartbeats 4000000 in
set_option maxRecDepth 100000 in
theorem qX8_item {E : evT} {l : Launch} {D : va_G} {bd : Nat → Nat} {κ : Nat → ClassId} (hE : EvOk E) (p0 : Nat) (hp0 : p0 < 67) (s : mS) {o : (mS)} (h : fX8_item p0 s = some o) : Cv l yX8_item wsX8_item rmX8_item (mW bd κ) E D (tyA κ)  [.ref (bd 67), .ref (bd p0)] s (fun s2 => o = s2) := by
  rw [fX8_item] at h
  refine s_v (cc := cX8_item) (nL := 6) (own := RX8) hE (mW_WA bd κ) (by decide) rfl rfl (Nat.le_of_ble_eq_true rfl) (fun Γ G hret => ?_)
  refine r_aload_n G 0 rfl rfl dX8_item_0 ?_
  obtain ⟨o1, e1, h⟩ := ob h
  refine r_callVi G [] (qX8_signBehindBlanks hE _ e1) ⟨67, 8, _, _, rfl, (mw_MO bd κ _), rfl⟩ gX8_item_X8_signBehindBlanks rfl hdX8_signBehindBlanks ⟨Nat.le_of_ble_eq_true rfl, Nat.le_of_ble_eq_true rfl⟩ (Nat.le_of_ble_eq_true rfl) rfl ⟨Nat.le_of_ble_eq_true rfl, Nat.le_of_ble_eq_true rfl⟩ rfl rfl dX8_item_1 (fun r1 s1 hp hn1 => ?_)
  subst hp
  try dsimp only at h
  refine r_bipush G (v := 35) (by decide) dX8_item_4 ?_
  refine r_icmp_ne G (tgt := 24) dX8_item_6 (by decide) (fun c => ?_) (fun c => ?_)
  · rw [if_neg c] at h
    refine r_aload_n G 0 rfl rfl dX8_item_24 ?_
    obtain ⟨o2, e2, h⟩ := ob h
    refine r_callVi G [] (qX8_number hE _ e2) ⟨67, 8, _, _, rfl, (mw_MO bd κ _), rfl⟩ gX8_item_X8_number rfl hdX8_number ⟨Nat.le_of_ble_eq_true rfl, Nat.le_of_ble_eq_true rfl⟩ (Nat.le_of_ble_eq_true rfl) rfl ⟨Nat.le_of_ble_eq_true rfl, Nat.le_of_ble_eq_true rfl⟩ rfl rfl dX8_item_25 (fun r2 s2 hp hn2 => ?_)
    subst hp
    try dsimp only at h
    refine r_istore_n G (lv' := [(0, .ref (bd 67)), (1, .ref (bd p0)), (2, .int r2)]) [1, 2, 0] rfl rfl (by decide) dX8_item_28 ?_
    refine r_iload_n G 2 rfl rfl dX8_item_29 ?_
    refine r_istore_n G (lv' := [(0, .ref (bd 67)), (1, .ref (bd p0)), (2, .int r2), (3, .int r2)]) [1, 2, 3, 0] rfl rfl (by decide) dX8_item_30 ?_
    refine r_aload_n G 0 rfl rfl dX8_item_31 ?_
    refine r_get G (C := RX8) (T := TX8) (N := 19) kX8_item_X8 67 (mw_MO bd κ _) rfl 14 (by decide) mX8_item_f164 rfl rfl dX8_item_32 ?_
    refine r_if_ne G (tgt := 122) dX8_item_35 (by decide) (fun c => ?_) (fun c => ?_)
    · rw [if_neg c] at h
      refine r_iload_n G 2 rfl rfl dX8_item_122 ?_
      refine r_istore G (lv' := [(0, .ref (bd 67)), (1, .ref (bd p0)), (3, .int r2), (4, .int r2)]) [1, 2, 4, 0] rfl (by decide) dX8_item_123 ?_
      refine wX8_item_L125 hE G _ hp0 _ hret 1100 _ _ h
    · rw [if_pos c] at h
      refine r_aload_n G 0 rfl rfl dX8_item_38 ?_
      obtain ⟨o5, e5, h⟩ := ob h
      refine r_callVi G [] (qX8_signBehindBlanks hE _ e5) ⟨67, 8, _, _, rfl, (mw_MO bd κ _), rfl⟩ gX8_item_X8_signBehindBlanks rfl hdX8_signBehindBlanks ⟨Nat.le_of_ble_eq_true rfl, Nat.le_of_ble_eq_true rfl⟩ (Nat.le_of_ble_eq_true rfl) rfl ⟨Nat.le_of_ble_eq_true rfl, Nat.le_of_ble_eq_true rfl⟩ rfl rfl dX8_item_39 (fun r5 s5 hp hn5 => ?_)
      subst hp
      try dsimp only at h
      refine r_bipush G (v := 46) (by decide) dX8_item_42 ?_
      refine r_icmp_ne G (tgt := 122) dX8_item_44 (by decide) (fun c => ?_) (fun c => ?_)
      · rw [if_neg c] at h
        refine r_iload_n G 2 rfl rfl dX8_item_122 ?_
        refine r_istore G (lv' := [(0, .ref (bd 67)), (1, .ref (bd p0)), (3, .int r2), (4, .int r2)]) [1, 2, 4, 0] rfl (by decide) dX8_item_123 ?_
        refine wX8_item_L125 hE G _ hp0 _ hret 1100 _ _ h
      · rw [if_pos c] at h
        refine r_aload_n G 0 rfl rfl dX8_item_47 ?_
        refine r_dup G rfl dX8_item_48 ?_
        refine r_get G (C := RX8) (T := TX8) (N := 19) kX8_item_X8 67 (mw_MO bd κ _) rfl 12 (by decide) mX8_item_f170 rfl rfl dX8_item_49 ?_
        refine r_iconst G (v := 1) (by decide) dX8_item_52 ?_
        refine r_iadd G dX8_item_53 ?_
        refine r_put G (C := RX8) (T := TX8) (N := 19) kX8_item_X8 tyX8 tyX8_ok nmX8 67 (mw_MO bd κ _) rfl 12 (by decide) mX8_item_f170 rfl rfl (tyX8_ok 12 (by decide)) rfl rfl (Nat.le_of_ble_eq_true rfl) (mu_at bd κ _ _) dX8_item_54 ?_
        refine r_aload_n G 0 rfl rfl dX8_item_57 ?_
        obtain ⟨o6, e6, h⟩ := ob h
        refine r_callVi G [] (qX8_sign hE _ e6) ⟨67, 8, _, _, rfl, (mw_MO bd κ _), rfl⟩ gX8_item_X8_sign rfl hdX8_sign ⟨Nat.le_of_ble_eq_true rfl, Nat.le_of_ble_eq_true rfl⟩ (Nat.le_of_ble_eq_true rfl) rfl ⟨Nat.le_of_ble_eq_true rfl, Nat.le_of_ble_eq_true rfl⟩ rfl rfl dX8_item_58 (fun r6 s6 hp hn6 => ?_)
        subst hp
        try dsimp only at h
        refine r_bipush G (v := 46) (by decide) dX8_item_61 ?_
        refine r_icmp_eq G (tgt := 76) dX8_item_63 (by decide) (fun c => ?_) (fun c => ?_)
        · rw [if_pos c] at h
          refine r_aload_n G 0 rfl rfl dX8_item_76 ?_
          refine r_dup G rfl dX8_item_77 ?_
          refine r_get G (C := RX8) (T := TX8) (N := 19) kX8_item_X8 67 (mw_MO bd κ _) rfl 12 (by decide) mX8_item_f170 rfl rfl dX8_item_78 ?_
          refine r_iconst G (v := 1) (by decide) dX8_item_81 ?_
          refine r_iadd G dX8_item_82 ?_
          refine r_put G (C := RX8) (T := TX8) (N := 19) kX8_item_X8 tyX8 tyX8_ok nmX8 67 (mw_MO bd κ _) rfl 12 (by decide) mX8_item_f170 rfl rfl (tyX8_ok 12 (by decide)) rfl rfl (Nat.le_of_ble_eq_true rfl) (mu_at bd κ _ _) dX8_item_83 ?_
          refine r_aload_n G 0 rfl rfl dX8_item_86 ?_
          obtain ⟨o7, e7, h⟩ := ob h
          refine r_callVi G [] (qX8_signBehindBlanks hE _ e7) ⟨67, 8, _, _, rfl, (mw_MO bd κ _), rfl⟩ gX8_item_X8_signBehindBlanks rfl hdX8_signBehindBlanks ⟨Nat.le_of_ble_eq_true rfl, Nat.le_of_ble_eq_true rfl⟩ (Nat.le_of_ble_eq_true rfl) rfl ⟨Nat.le_of_ble_eq_true rfl, Nat.le_of_ble_eq_true rfl⟩ rfl rfl dX8_item_87 (fun r7 s7 hp hn7 => ?_)
          subst hp
          try dsimp only at h
          refine r_istore G (lv' := [(0, .ref (bd 67)), (1, .ref (bd p0)), (2, .int r2)]) [1, 2, 3] rfl (by decide) dX8_item_90 ?_
          refine r_aload_n G 0 rfl rfl dX8_item_92 ?_
          refine r_get G (C := RX8) (T := TX8) (N := 19) kX8_item_X8 67 (mw_MO bd κ _) rfl 12 (by decide) mX8_item_f170 rfl rfl dX8_item_93 ?_
          refine r_istore G (lv' := [(0, .ref (bd 67)), (1, .ref (bd p0)), (2, .int r2), (5, .int (mI s7 5))]) [1, 2, 3, 0] rfl (by decide) dX8_item_96 ?_
          refine r_aload_n G 0 rfl rfl dX8_item_98 ?_
          obtain ⟨o8, e8, h⟩ := ob h
          refine r_callVi G [] (qX8_number hE _ e8) ⟨67, 8, _, _, rfl, (mw_MO bd κ _), rfl⟩ gX8_item_X8_number rfl hdX8_number ⟨Nat.le_of_ble_eq_true rfl, Nat.le_of_ble_eq_true rfl⟩ (Nat.le_of_ble_eq_true rfl) rfl ⟨Nat.le_of_ble_eq_true rfl, Nat.le_of_ble_eq_true rfl⟩ rfl rfl dX8_item_99 (fun r8 s8 hp hn8 => ?_)
          subst hp
          try dsimp only at h
          refine r_istore_n G (lv' := [(0, .ref (bd 67)), (1, .ref (bd p0)), (2, .int r2), (3, .int r8), (5, .int (mI s7 5))]) [1, 2, 3, 0, 4] rfl rfl (by decide) dX8_item_102 ?_
          refine r_aload_n G 0 rfl rfl dX8_item_103 ?_
          refine r_get G (C := RX8) (T := TX8) (N := 19) kX8_item_X8 67 (mw_MO bd κ _) rfl 14 (by decide) mX8_item_f164 rfl rfl dX8_item_104 ?_
          refine r_if_ne G (tgt := 122) dX8_item_107 (by decide) (fun c => ?_) (fun c => ?_)
          · rw [if_neg c] at h
            refine r_iload_n G 2 rfl rfl dX8_item_122 ?_
            refine r_istore G (lv' := [(0, .ref (bd 67)), (1, .ref (bd p0)), (3, .int r8), (4, .int r2)]) [1, 2, 4, 0] rfl (by decide) dX8_item_123 ?_
            refine wX8_item_L125 hE G _ hp0 _ hret 1100 _ _ h
          · rw [if_pos c] at h
            refine r_iload_n G 3 rfl rfl dX8_item_110 ?_
            refine r_iload_n G 2 rfl rfl dX8_item_111 ?_
            refine r_icmp_ge G (tgt := 122) dX8_item_112 (by decide) (fun c => ?_) (fun c => ?_)
            · rw [if_pos c] at h
              refine r_iload_n G 2 rfl rfl dX8_item_122 ?_
              refine r_istore G (lv' := [(0, .ref (bd 67)), (1, .ref (bd p0)), (3, .int r8), (4, .int r2)]) [1, 2, 4, 0] rfl (by decide) dX8_item_123 ?_
              refine wX8_item_L125 hE G _ hp0 _ hret 1100 _ _ h
            · rw [if_neg c] at h
              refine r_aload_n G 0 rfl rfl dX8_item_115 ?_
              refine r_iconst G (v := 2) (by decide) dX8_item_116 ?_
              refine r_iload G 4 rfl dX8_item_117 ?_
              obtain ⟨o9, e9, h⟩ := ob h
              refine r_callVv G [.int 2, .int (mI s7 5)] (qX8_fails hE (2 : Int32) (mI s7 5) _ e9) ⟨67, 8, _, _, rfl, (mw_MO bd κ _), rfl⟩ gX8_item_X8_fails rfl hdX8_fails ⟨Nat.le_of_ble_eq_true rfl, Nat.le_of_ble_eq_true rfl⟩ (Nat.le_of_ble_eq_true rfl) rfl ⟨Nat.le_of_ble_eq_true rfl, Nat.le_of_ble_eq_true rfl⟩ rfl rfl dX8_item_119 (fun s9 hp => ?_)
              have hp := hp.symm
              subst hp
              try dsimp only at h
              refine r_iload_n G 2 rfl rfl dX8_item_122 ?_
              refine r_istore G (lv' := [(0, .ref (bd 67)), (1, .ref (bd p0)), (3, .int r8), (4, .int r2)]) [1, 2, 4, 0] rfl (by decide) dX8_item_123 ?_
              refine wX8_item_L125 hE G _ hp0 _ hret 1100 _ _ h
        · rw [if_neg c] at h
          refine r_aload_n G 0 rfl rfl dX8_item_66 ?_
          refine r_iconst G (v := 1) (by decide) dX8_item_67 ?_
          refine r_aload_n G 0 rfl rfl dX8_item_68 ?_
          refine r_get G (C := RX8) (T := TX8) (N := 19) kX8_item_X8 67 (mw_MO bd κ _) rfl 12 (by decide) mX8_item_f170 rfl rfl dX8_item_69 ?_
          obtain ⟨o10, e10, h⟩ := ob h
          refine r_callVv G [.int 1, .int (mI s6 5)] (qX8_fails hE (1 : Int32) (mI s6 5) _ e10) ⟨67, 8, _, _, rfl, (mw_MO bd κ _), rfl⟩ gX8_item_X8_fails rfl hdX8_fails ⟨Nat.le_of_ble_eq_true rfl, Nat.le_of_ble_eq_true rfl⟩ (Nat.le_of_ble_eq_true rfl) rfl ⟨Nat.le_of_ble_eq_true rfl, Nat.le_of_ble_eq_true rfl⟩ rfl rfl dX8_item_72 (fun s10 hp => ?_)
          have hp := hp.symm
          subst hp
          try dsimp only at h
          exact hret _ _ _ _ _ dX8_item_75 (Option.some.inj h).symm (Nat.le_of_ble_eq_true rfl) (Nat.le_of_ble_eq_true rfl)
  · rw [if_pos c] at h
    refine r_aload_n G 1 rfl rfl dX8_item_9 ?_
    refine r_iconst G (v := 0) (by decide) dX8_item_10 ?_
    refine r_iconst G (v := 1) (by decide) dX8_item_11 ?_
    obtain ⟨g11, h⟩ := og h
    refine r_zast G p0 4 (mw_ROW bd κ _ hp0) rfl (vin_in g11) (mu_ROW bd κ _ hp0 _ _) dX8_item_12 ?_
    refine r_aload_n G 0 rfl rfl dX8_item_13 ?_
    refine r_dup G rfl dX8_item_14 ?_
    refine r_get G (C := RX8) (T := TX8) (N := 19) kX8_item_X8 67 (mw_MO bd κ _) rfl 12 (by decide) mX8_item_f170 rfl rfl dX8_item_15 ?_
    refine r_iconst G (v := 1) (by decide) dX8_item_18 ?_
    refine r_iadd G dX8_item_19 ?_
    refine r_put G (C := RX8) (T := TX8) (N := 19) kX8_item_X8 tyX8 tyX8_ok nmX8 67 (mw_MO bd κ _) rfl 12 (by decide) mX8_item_f170 rfl rfl (tyX8_ok 12 (by decide)) rfl rfl (Nat.le_of_ble_eq_true rfl) (mu_at bd κ _ _) dX8_item_20 ?_
    exact hret _ _ _ _ _ dX8_item_23 (Option.some.inj h).symm (Nat.le_of_ble_eq_true rfl) (Nat.le_of_ble_eq_true rfl)
abbrev rmX8_braces : Room := { frames := 3, cells := 0, slots := 0, locals := 70 }
theorem hdX8_expects : yX8_expects.cls = RX8 ∧ yX8_expects.cls ≠ "java/lang/invoke/MethodHandle" ∧ yX8_expects.cls ≠ "java/lang/invoke/VarHandle" ∧ (parseMethodDescriptor yX8_expects.desc).map (fun d => d.parameters.length) = some 1 := by decide +kernel
theorem hdX8_item : yX8_item.cls = RX8 ∧ yX8_item.cls ≠ "java/lang/invoke/MethodHandle" ∧ yX8_item.cls ≠ "java/lang/invoke/VarHandle" ∧ (parseMethodDescriptor yX8_item.desc).map (fun d => d.parameters.length) = some 1 := by decide +kernel
set_option maxRecDepth 20000 in
theorem kX8_braces_X8 : ∀ w ∈ u_ws RX8 TX8 19, w ∈ wsX8_braces := by decide +kernel
set_option maxRecDepth 20000 in
theorem mX8_braces_f164 : Cond.fieldLink RX8 164 "SetCouncilModel" "errorKind" "I" ∈ wsX8_braces := by decide +kernel
set_option maxRecDepth 20000 in
theorem mX8_braces_f170 : Cond.fieldLink RX8 170 "SetCouncilModel" "at" "I" ∈ wsX8_braces := by decide +kernel
set_option maxHeartbeats 4000000 in
set_option maxRecDepth 100000 in
theorem wX8_braces_L38 {E : evT} {l : Launch} {D : va_G} {bd : Nat → Nat} {κ : Nat → ClassId} (hE : EvOk E) {Γ : cxT} (G : Cx (mW bd κ) D (tyA κ) E l Γ cX8_braces RX8 wsX8_braces 2 rmX8_braces) (z1 : Nat) (hz1 : z1 < 67) {o : (mS)} (hret : ∀ (st2 : mS) (cells slots pc : Nat) (lv : List (Nat × Value)), decode cX8_braces pc = .ok (.return_, 1) → o = st2 → cells ≤ rmX8_braces.cells → slots ≤ rmX8_braces.slots → V (mW bd κ) D Γ st2 cells slots pc lv []) {k0 : mS → Option (mS)} (hk0 : ∀ (s : mS), k0 s = some o → V (mW bd κ) D Γ s 0 0 72 [(0, .ref (bd 67))] []) : ∀ (fuel : Nat) (s : mS), fX8_braces_L38 z1 k0 fuel s = some o → V (mW bd κ) D Γ s 0 0 38 [(0, .ref (bd 67)), (1, .ref (bd z1))] [] := by
  intro fuel
  induction fuel with
  | zero =>
    intro _ h
    have h : none = some o := h
    cases h
  | succ fuel ih =>
    intro s h
    rw [fX8_braces_L38] at h
    refine r_aload_n G 0 rfl rfl dX8_braces_38 ?_
    refine r_get G (C := RX8) (T := TX8) (N := 19) kX8_braces_X8 67 (mw_MO bd κ _) rfl 14 (by decide) mX8_braces_f164 rfl rfl dX8_braces_39 ?_
    refine r_if_ne G (tgt := 72) dX8_braces_42 (by decide) (fun c => ?_) (fun c => ?_)
    · rw [if_neg c] at h
      refine V.sub (lv' := [(0, .ref (bd 67))]) [0] rfl ?_
      exact hk0 _ h
    · rw [if_pos c] at h
      refine r_aload_n G 0 rfl rfl dX8_braces_45 ?_
      obtain ⟨o5, e5, h⟩ := ob h
      refine r_callVi G [] (qX8_signBehindBlanks hE _ e5) ⟨67, 8, _, _, rfl, (mw_MO bd κ _), rfl⟩ gX8_braces_X8_signBehindBlanks rfl hdX8_signBehindBlanks ⟨Nat.le_of_ble_eq_true rfl, Nat.le_of_ble_eq_true rfl⟩ (Nat.le_of_ble_eq_true rfl) rfl ⟨Nat.le_of_ble_eq_true rfl, Nat.le_of_ble_eq_true rfl⟩ rfl rfl dX8_braces_46 (fun r5 s5 hp hn5 => ?_)
      subst hp
      try dsimp only at h
      refine r_bipush G (v := 44) (by decide) dX8_braces_49 ?_
      refine r_icmp_ne G (tgt := 72) dX8_braces_51 (by decide) (fun c => ?_) (fun c => ?_)
      · rw [if_neg c] at h
        refine V.sub (lv' := [(0, .ref (bd 67))]) [0] rfl ?_
        exact hk0 _ h
      · rw [if_pos c] at h
        refine r_aload_n G 0 rfl rfl dX8_braces_54 ?_
        refine r_dup G rfl dX8_braces_55 ?_
        refine r_get G (C := RX8) (T := TX8) (N := 19) kX8_braces_X8 67 (mw_MO bd κ _) rfl 12 (by decide) mX8_braces_f170 rfl rfl dX8_braces_56 ?_
        refine r_iconst G (v := 1) (by decide) dX8_braces_59 ?_
        refine r_iadd G dX8_braces_60 ?_
        refine r_put G (C := RX8) (T := TX8) (N := 19) kX8_braces_X8 tyX8 tyX8_ok nmX8 67 (mw_MO bd κ _) rfl 12 (by decide) mX8_braces_f170 rfl rfl (tyX8_ok 12 (by decide)) rfl rfl (Nat.le_of_ble_eq_true rfl) (mu_at bd κ _ _) dX8_braces_61 ?_
        refine r_aload_n G 0 rfl rfl dX8_braces_64 ?_
        refine r_aload_n G 1 rfl rfl dX8_braces_65 ?_
        obtain ⟨o6, e6, h⟩ := ob h
        refine r_callVv G [.ref (bd z1)] (qX8_item hE z1 hz1 _ e6) ⟨67, 8, _, _, rfl, (mw_MO bd κ _), rfl⟩ gX8_braces_X8_item rfl hdX8_item ⟨Nat.le_of_ble_eq_true rfl, Nat.le_of_ble_eq_true rfl⟩ (Nat.le_of_ble_eq_true rfl) rfl ⟨Nat.le_of_ble_eq_true rfl, Nat.le_of_ble_eq_true rfl⟩ rfl rfl dX8_braces_66 (fun s6 hp => ?_)
        have hp := hp.symm
        subst hp
        try dsimp only at h
        refine r_goto G (tgt := 38) dX8_braces_69 (by decide) ?_
        exact ih _ h
set_option maxHeartbeats 4000000 in
set_option maxRecDepth 100000 in
theorem qX8_braces {E : evT} {l : Launch} {D : va_G} {bd : Nat → Nat} {κ : Nat → ClassId} (hE : EvOk E) (p0 : Nat) (hp0 : p0 < 67) (s : mS) {o : (mS)} (h : fX8_braces p0 s = some o) : Cv l yX8_braces wsX8_braces rmX8_braces (mW bd κ) E D (tyA κ)  [.ref (bd 67), .ref (bd p0)] s (fun s2 => o = s2) := by
  rw [fX8_braces] at h
  refine s_v (cc := cX8_braces) (nL := 2) (own := RX8) hE (mW_WA bd κ) (by decide) rfl rfl (Nat.le_of_ble_eq_true rfl) (fun Γ G hret => ?_)
  refine r_aload_n G 1 rfl rfl dX8_braces_0 ?_
  refine r_aload_n G 1 rfl rfl dX8_braces_1 ?_
  refine r_iconst G (v := 2) (by decide) dX8_braces_2 ?_
  refine r_aload_n G 1 rfl rfl dX8_braces_3 ?_
  obtain ⟨o1, e1, h⟩ := ob h
  refine r_callSv G [.ref (bd p0), .ref (bd p0), .int 2, .ref (bd p0)] (qX8_joins hE p0 hp0 p0 hp0 (2 : Int32) p0 hp0 _ e1) gX8_braces_X8_joins rfl hdX8_joins ⟨Nat.le_of_ble_eq_true rfl, Nat.le_of_ble_eq_true rfl⟩ (Nat.le_of_ble_eq_true rfl) rfl ⟨Nat.le_of_ble_eq_true rfl, Nat.le_of_ble_eq_true rfl⟩ rfl rfl dX8_braces_4 (fun s1 hp => ?_)
  have hp := hp.symm
  subst hp
  try dsimp only at h
  refine r_aload_n G 0 rfl rfl dX8_braces_7 ?_
  refine r_bipush G (v := 123) (by decide) dX8_braces_8 ?_
  obtain ⟨o2, e2, h⟩ := ob h
  refine r_callVv G [.int 123] (qX8_expects hE (123 : Int32) _ e2) ⟨67, 8, _, _, rfl, (mw_MO bd κ _), rfl⟩ gX8_braces_X8_expects rfl hdX8_expects ⟨Nat.le_of_ble_eq_true rfl, Nat.le_of_ble_eq_true rfl⟩ (Nat.le_of_ble_eq_true rfl) rfl ⟨Nat.le_of_ble_eq_true rfl, Nat.le_of_ble_eq_true rfl⟩ rfl rfl dX8_braces_10 (fun s2 hp => ?_)
  have hp := hp.symm
  subst hp
  try dsimp only at h
  refine r_aload_n G 0 rfl rfl dX8_braces_13 ?_
  obtain ⟨o3, e3, h⟩ := ob h
  refine r_callVi G [] (qX8_signBehindBlanks hE _ e3) ⟨67, 8, _, _, rfl, (mw_MO bd κ _), rfl⟩ gX8_braces_X8_signBehindBlanks rfl hdX8_signBehindBlanks ⟨Nat.le_of_ble_eq_true rfl, Nat.le_of_ble_eq_true rfl⟩ (Nat.le_of_ble_eq_true rfl) rfl ⟨Nat.le_of_ble_eq_true rfl, Nat.le_of_ble_eq_true rfl⟩ rfl rfl dX8_braces_14 (fun r3 s3 hp hn3 => ?_)
  subst hp
  try dsimp only at h
  refine r_bipush G (v := 125) (by decide) dX8_braces_17 ?_
  refine r_icmp_ne G (tgt := 33) dX8_braces_19 (by decide) (fun c => ?_) (fun c => ?_)
  · rw [if_neg c] at h
    refine r_aload_n G 0 rfl rfl dX8_braces_33 ?_
    refine r_aload_n G 1 rfl rfl dX8_braces_34 ?_
    obtain ⟨o4, e4, h⟩ := ob h
    refine r_callVv G [.ref (bd p0)] (qX8_item hE p0 hp0 _ e4) ⟨67, 8, _, _, rfl, (mw_MO bd κ _), rfl⟩ gX8_braces_X8_item rfl hdX8_item ⟨Nat.le_of_ble_eq_true rfl, Nat.le_of_ble_eq_true rfl⟩ (Nat.le_of_ble_eq_true rfl) rfl ⟨Nat.le_of_ble_eq_true rfl, Nat.le_of_ble_eq_true rfl⟩ rfl rfl dX8_braces_35 (fun s4 hp => ?_)
    have hp := hp.symm
    subst hp
    try dsimp only at h
    refine wX8_braces_L38 hE G _ hp0 hret (fun s7 h => ?_) 1100 _ h
    · try dsimp only at h
      refine r_aload_n G 0 rfl rfl dX8_braces_72 ?_
      refine r_get G (C := RX8) (T := TX8) (N := 19) kX8_braces_X8 67 (mw_MO bd κ _) rfl 14 (by decide) mX8_braces_f164 rfl rfl dX8_braces_73 ?_
      refine r_if_ne G (tgt := 85) dX8_braces_76 (by decide) (fun c => ?_) (fun c => ?_)
      · rw [if_neg c] at h
        exact hret _ _ _ _ _ dX8_braces_85 (Option.some.inj h).symm (Nat.le_of_ble_eq_true rfl) (Nat.le_of_ble_eq_true rfl)
      · rw [if_pos c] at h
        refine r_aload_n G 0 rfl rfl dX8_braces_79 ?_
        refine r_bipush G (v := 125) (by decide) dX8_braces_80 ?_
        obtain ⟨o8, e8, h⟩ := ob h
        refine r_callVv G [.int 125] (qX8_expects hE (125 : Int32) _ e8) ⟨67, 8, _, _, rfl, (mw_MO bd κ _), rfl⟩ gX8_braces_X8_expects rfl hdX8_expects ⟨Nat.le_of_ble_eq_true rfl, Nat.le_of_ble_eq_true rfl⟩ (Nat.le_of_ble_eq_true rfl) rfl ⟨Nat.le_of_ble_eq_true rfl, Nat.le_of_ble_eq_true rfl⟩ rfl rfl dX8_braces_82 (fun s8 hp => ?_)
        have hp := hp.symm
        subst hp
        try dsimp only at h
        exact hret _ _ _ _ _ dX8_braces_85 (Option.some.inj h).symm (Nat.le_of_ble_eq_true rfl) (Nat.le_of_ble_eq_true rfl)
  · rw [if_pos c] at h
    refine r_aload_n G 0 rfl rfl dX8_braces_22 ?_
    refine r_dup G rfl dX8_braces_23 ?_
    refine r_get G (C := RX8) (T := TX8) (N := 19) kX8_braces_X8 67 (mw_MO bd κ _) rfl 12 (by decide) mX8_braces_f170 rfl rfl dX8_braces_24 ?_
    refine r_iconst G (v := 1) (by decide) dX8_braces_27 ?_
    refine r_iadd G dX8_braces_28 ?_
    refine r_put G (C := RX8) (T := TX8) (N := 19) kX8_braces_X8 tyX8 tyX8_ok nmX8 67 (mw_MO bd κ _) rfl 12 (by decide) mX8_braces_f170 rfl rfl (tyX8_ok 12 (by decide)) rfl rfl (Nat.le_of_ble_eq_true rfl) (mu_at bd κ _ _) dX8_braces_29 ?_
    exact hret _ _ _ _ _ dX8_braces_32 (Option.some.inj h).symm (Nat.le_of_ble_eq_true rfl) (Nat.le_of_ble_eq_true rfl)
abbrev rmX8_joinsHighest : Room := { frames := 1, cells := 0, slots := 0, locals := 24 }
set_option maxRecDepth 20000 in
theorem kX8_joinsHighest_X8 : ∀ w ∈ u_ws RX8 TX8 19, w ∈ wsX8_joinsHighest := by decide +kernel
set_option maxRecDepth 20000 in
theorem mX8_joinsHighest_f164 : Cond.fieldLink RX8 164 "SetCouncilModel" "errorKind" "I" ∈ wsX8_joinsHighest := by decide +kernel
set_option maxRecDepth 20000 in
theorem mX8_joinsHighest_f200 : Cond.fieldLink RX8 200 "SetCouncilModel" "high" "I" ∈ wsX8_joinsHighest := by decide +kernel
set_option maxRecDepth 20000 in
theorem mX8_joinsHighest_f47 : Cond.fieldLink RX8 47 "SetCouncilModel" "pile" "[[Z" ∈ wsX8_joinsHighest := by decide +kernel
set_option maxHeartbeats 4000000 in
set_option maxRecDepth 100000 in
theorem qX8_joinsHighest {E : evT} {l : Launch} {D : va_G} {bd : Nat → Nat} {κ : Nat → ClassId} (hE : EvOk E) (p0 : Int32) (s : mS) {o : (mS)} (h : fX8_joinsHighest p0 s = some o) : Cv l yX8_joinsHighest wsX8_joinsHighest rmX8_joinsHighest (mW bd κ) E D (tyA κ)  [.ref (bd 67), .int p0] s (fun s2 => o = s2) := by
  rw [fX8_joinsHighest] at h
  refine s_v (cc := cX8_joinsHighest) (nL := 2) (own := RX8) hE (mW_WA bd κ) (by decide) rfl rfl (Nat.le_of_ble_eq_true rfl) (fun Γ G hret => ?_)
  refine r_aload_n G 0 rfl rfl dX8_joinsHighest_0 ?_
  refine r_get G (C := RX8) (T := TX8) (N := 19) kX8_joinsHighest_X8 67 (mw_MO bd κ _) rfl 14 (by decide) mX8_joinsHighest_f164 rfl rfl dX8_joinsHighest_1 ?_
  refine r_if_ne G (tgt := 52) dX8_joinsHighest_4 (by decide) (fun c => ?_) (fun c => ?_)
  · rw [if_neg c] at h
    exact hret _ _ _ _ _ dX8_joinsHighest_52 (Option.some.inj h).symm (Nat.le_of_ble_eq_true rfl) (Nat.le_of_ble_eq_true rfl)
  · rw [if_pos c] at h
    refine r_aload_n G 0 rfl rfl dX8_joinsHighest_7 ?_
    refine r_dup G rfl dX8_joinsHighest_8 ?_
    refine r_get G (C := RX8) (T := TX8) (N := 19) kX8_joinsHighest_X8 67 (mw_MO bd κ _) rfl 11 (by decide) mX8_joinsHighest_f200 rfl rfl dX8_joinsHighest_9 ?_
    refine r_iconst G (v := 1) (by decide) dX8_joinsHighest_12 ?_
    refine r_isub G dX8_joinsHighest_13 ?_
    refine r_put G (C := RX8) (T := TX8) (N := 19) kX8_joinsHighest_X8 tyX8 tyX8_ok nmX8 67 (mw_MO bd κ _) rfl 11 (by decide) mX8_joinsHighest_f200 rfl rfl (tyX8_ok 11 (by decide)) rfl rfl (Nat.le_of_ble_eq_true rfl) (mu_high bd κ _ _) dX8_joinsHighest_14 ?_
    refine r_aload_n G 0 rfl rfl dX8_joinsHighest_17 ?_
    refine r_get G (C := RX8) (T := TX8) (N := 19) kX8_joinsHighest_X8 67 (mw_MO bd κ _) rfl 10 (by decide) mX8_joinsHighest_f47 rfl rfl dX8_joinsHighest_18 ?_
    refine r_aload_n G 0 rfl rfl dX8_joinsHighest_21 ?_
    refine r_get G (C := RX8) (T := TX8) (N := 19) kX8_joinsHighest_X8 67 (mw_MO bd κ _) rfl 11 (by decide) mX8_joinsHighest_f200 rfl rfl dX8_joinsHighest_22 ?_
    refine r_iconst G (v := 1) (by decide) dX8_joinsHighest_25 ?_
    refine r_isub G dX8_joinsHighest_26 ?_
    obtain ⟨g1, h⟩ := og h
    refine r_aldA G 71 5 (mw_PILEG bd κ _) rfl (vin_in g1) rfl dX8_joinsHighest_27 ?_
    refine r_aload_n G 0 rfl rfl dX8_joinsHighest_28 ?_
    refine r_get G (C := RX8) (T := TX8) (N := 19) kX8_joinsHighest_X8 67 (mw_MO bd κ _) rfl 10 (by decide) mX8_joinsHighest_f47 rfl rfl dX8_joinsHighest_29 ?_
    refine r_aload_n G 0 rfl rfl dX8_joinsHighest_32 ?_
    refine r_get G (C := RX8) (T := TX8) (N := 19) kX8_joinsHighest_X8 67 (mw_MO bd κ _) rfl 11 (by decide) mX8_joinsHighest_f200 rfl rfl dX8_joinsHighest_33 ?_
    obtain ⟨g2, h⟩ := og h
    refine r_aldA G 71 5 (mw_PILEG bd κ _) rfl (vin_in g2) rfl dX8_joinsHighest_36 ?_
    refine r_iload_n G 1 rfl rfl dX8_joinsHighest_37 ?_
    refine r_aload_n G 0 rfl rfl dX8_joinsHighest_38 ?_
    refine r_get G (C := RX8) (T := TX8) (N := 19) kX8_joinsHighest_X8 67 (mw_MO bd κ _) rfl 10 (by decide) mX8_joinsHighest_f47 rfl rfl dX8_joinsHighest_39 ?_
    refine r_aload_n G 0 rfl rfl dX8_joinsHighest_42 ?_
    refine r_get G (C := RX8) (T := TX8) (N := 19) kX8_joinsHighest_X8 67 (mw_MO bd κ _) rfl 11 (by decide) mX8_joinsHighest_f200 rfl rfl dX8_joinsHighest_43 ?_
    refine r_iconst G (v := 1) (by decide) dX8_joinsHighest_46 ?_
    refine r_isub G dX8_joinsHighest_47 ?_
    obtain ⟨g3, h⟩ := og h
    refine r_aldA G 71 5 (mw_PILEG bd κ _) rfl (vin_in g3) rfl dX8_joinsHighest_48 ?_
    obtain ⟨o4, e4, h⟩ := ob h
    refine r_callSv G [.ref (bd (24 + ((mI (vI s 4 ((mI s 4) - 1)) 4) - 1).toNatClampNeg)), .ref (bd (24 + (mI (vI s 4 ((mI s 4) - 1)) 4).toNatClampNeg)), .int p0, .ref (bd (24 + ((mI (vI s 4 ((mI s 4) - 1)) 4) - 1).toNatClampNeg))] (qX8_joins hE (24 + ((mI (vI s 4 ((mI s 4) - 1)) 4) - 1).toNatClampNeg) (by have := vin_lt g1; omega) (24 + (mI (vI s 4 ((mI s 4) - 1)) 4).toNatClampNeg) (by have := vin_lt g2; omega) p0 (24 + ((mI (vI s 4 ((mI s 4) - 1)) 4) - 1).toNatClampNeg) (by have := vin_lt g3; omega) _ e4) gX8_joinsHighest_X8_joins rfl hdX8_joins ⟨Nat.le_of_ble_eq_true rfl, Nat.le_of_ble_eq_true rfl⟩ (Nat.le_of_ble_eq_true rfl) rfl ⟨Nat.le_of_ble_eq_true rfl, Nat.le_of_ble_eq_true rfl⟩ rfl rfl dX8_joinsHighest_49 (fun s4 hp => ?_)
    have hp := hp.symm
    subst hp
    try dsimp only at h
    exact hret _ _ _ _ _ dX8_joinsHighest_52 (Option.some.inj h).symm (Nat.le_of_ble_eq_true rfl) (Nat.le_of_ble_eq_true rfl)
