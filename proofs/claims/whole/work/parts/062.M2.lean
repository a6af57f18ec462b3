abbrev rmX8_becomes : Room := { frames := 2, cells := 0, slots := 0, locals := 43 }
set_option maxRecDepth 20000 in
theorem kX8_becomes_X8 : ∀ w ∈ u_ws RX8 TX8 19, w ∈ wsX8_becomes := by decide +kernel
set_option maxRecDepth 20000 in
theorem mX8_becomes_f27 : Cond.fieldLink RX8 27 "SetCouncilModel" "sets" "[[Z" ∈ wsX8_becomes := by decide +kernel
set_option maxRecDepth 20000 in
theorem mX8_becomes_f30 : Cond.fieldLink RX8 30 "SetCouncilModel" "before" "[Z" ∈ wsX8_becomes := by decide +kernel
theorem hdX8_copies : yX8_copies.cls ≠ "java/lang/invoke/MethodHandle" ∧ yX8_copies.cls ≠ "java/lang/invoke/VarHandle" ∧ (parseMethodDescriptor yX8_copies.desc).map (fun d => d.parameters.length) = some 2 := by decide +kernel
theorem hdX8_areSame : yX8_areSame.cls ≠ "java/lang/invoke/MethodHandle" ∧ yX8_areSame.cls ≠ "java/lang/invoke/VarHandle" ∧ (parseMethodDescriptor yX8_areSame.desc).map (fun d => d.parameters.length) = some 2 := by decide +kernel
set_option maxHeartbeats 4000000 in
set_option maxRecDepth 100000 in
theorem qX8_becomes {E : evT} {l : Launch} {D : va_G} {bd : Nat → Nat} {κ : Nat → ClassId} (hE : EvOk E) (p0 : Int32) (p1 : Int32) (p2 : Int32) (s : mS) {o : (Int32 × mS)} (h : fX8_becomes p0 p1 p2 s = some o) : Ci l yX8_becomes wsX8_becomes rmX8_becomes (mW bd κ) E D (tyA κ) .boolean [.ref (bd 67), .int p0, .int p1, .int p2] s (fun r s2 => o = (r, s2)) := by
  rw [fX8_becomes] at h
  refine s_i (cc := cX8_becomes) (nL := 4) (own := RX8) hE (mW_WA bd κ) (plainFor_of_name (by decide)) rfl rfl (Nat.le_of_ble_eq_true rfl) (fun Γ G hret => ?_)
  refine r_aload_n G 0 rfl rfl dX8_becomes_0 ?_
  refine r_iload_n G 1 rfl rfl dX8_becomes_1 ?_
  refine r_callSi G [.int p0] (qX8_isSet hE p0 _) gX8_becomes_X8_isSet rfl hdX8_isSet ⟨Nat.le_of_ble_eq_true rfl, Nat.le_of_ble_eq_true rfl⟩ (Nat.le_of_ble_eq_true rfl) rfl ⟨Nat.le_of_ble_eq_true rfl, Nat.le_of_ble_eq_true rfl⟩ rfl rfl dX8_becomes_2 (fun r1 s1 hp hn1 => ?_)
  obtain ⟨rfl, hs⟩ := hp
  have hs := hs.symm
  subst hs
  refine r_if_eq G (tgt := 19) dX8_becomes_5 (by decide) (fun c => ?_) (fun c => ?_)
  · rw [if_pos c] at h
    refine r_iconst G (v := 0) (by decide) dX8_becomes_19 ?_
    refine r_iconst G (v := 1) (by decide) dX8_becomes_20 ?_
    obtain ⟨o2, e2, h⟩ := ob h
    refine r_callVi G [.int 0, .int 1] (qX8_passes hE (0 : Int32) (1 : Int32) _ e2) ⟨67, 8, _, _, rfl, (mw_MO bd κ _), rfl⟩ gX8_becomes_X8_passes rfl hdX8_passes ⟨Nat.le_of_ble_eq_true rfl, Nat.le_of_ble_eq_true rfl⟩ (Nat.le_of_ble_eq_true rfl) rfl ⟨Nat.le_of_ble_eq_true rfl, Nat.le_of_ble_eq_true rfl⟩ rfl rfl dX8_becomes_21 (fun r2 s2 hp hn2 => ?_)
    subst hp
    try dsimp only at h
    refine r_if_ne G (tgt := 29) dX8_becomes_24 (by decide) (fun c => ?_) (fun c => ?_)
    · rw [if_neg c] at h
      refine r_aload_n G 0 rfl rfl dX8_becomes_29 ?_
      refine r_get G (C := RX8) (T := TX8) (N := 19) kX8_becomes_X8 67 (mw_MO bd κ _) rfl 1 (by decide) mX8_becomes_f27 rfl rfl dX8_becomes_30 ?_
      refine r_iload_n G 1 rfl rfl dX8_becomes_33 ?_
      obtain ⟨g3, h⟩ := og h
      refine r_aldA G 68 5 (mw_SETSG bd κ _) rfl (vin_in g3) rfl dX8_becomes_34 ?_
      refine r_aload_n G 0 rfl rfl dX8_becomes_35 ?_
      refine r_get G (C := RX8) (T := TX8) (N := 19) kX8_becomes_X8 67 (mw_MO bd κ _) rfl 2 (by decide) mX8_becomes_f30 rfl rfl dX8_becomes_36 ?_
      obtain ⟨o4, e4, h⟩ := ob h
      refine r_callSv G [.ref (bd p0.toNatClampNeg), .ref (bd 8)] (qX8_copies hE p0.toNatClampNeg (by have := vin_lt g3; omega) 8 (by decide) _ e4) gX8_becomes_X8_copies rfl hdX8_copies ⟨Nat.le_of_ble_eq_true rfl, Nat.le_of_ble_eq_true rfl⟩ (Nat.le_of_ble_eq_true rfl) rfl ⟨Nat.le_of_ble_eq_true rfl, Nat.le_of_ble_eq_true rfl⟩ rfl rfl dX8_becomes_39 (fun s4 hp => ?_)
      have hp := hp.symm
      subst hp
      try dsimp only at h
      refine r_aload_n G 0 rfl rfl dX8_becomes_42 ?_
      refine r_get G (C := RX8) (T := TX8) (N := 19) kX8_becomes_X8 67 (mw_MO bd κ _) rfl 2 (by decide) mX8_becomes_f30 rfl rfl dX8_becomes_43 ?_
      refine r_aload_n G 0 rfl rfl dX8_becomes_46 ?_
      refine r_get G (C := RX8) (T := TX8) (N := 19) kX8_becomes_X8 67 (mw_MO bd κ _) rfl 1 (by decide) mX8_becomes_f27 rfl rfl dX8_becomes_47 ?_
      refine r_iload_n G 2 rfl rfl dX8_becomes_50 ?_
      obtain ⟨g5, h⟩ := og h
      refine r_aldA G 68 5 (mw_SETSG bd κ _) rfl (vin_in g5) rfl dX8_becomes_51 ?_
      refine r_iload_n G 3 rfl rfl dX8_becomes_52 ?_
      refine r_aload_n G 0 rfl rfl dX8_becomes_53 ?_
      refine r_get G (C := RX8) (T := TX8) (N := 19) kX8_becomes_X8 67 (mw_MO bd κ _) rfl 1 (by decide) mX8_becomes_f27 rfl rfl dX8_becomes_54 ?_
      refine r_iload_n G 1 rfl rfl dX8_becomes_57 ?_
      obtain ⟨g6, h⟩ := og h
      refine r_aldA G 68 5 (mw_SETSG bd κ _) rfl (vin_in g6) rfl dX8_becomes_58 ?_
      obtain ⟨o7, e7, h⟩ := ob h
      refine r_callSv G [.ref (bd 8), .ref (bd p1.toNatClampNeg), .int p2, .ref (bd p0.toNatClampNeg)] (qX8_joins hE 8 (by decide) p1.toNatClampNeg (by have := vin_lt g5; omega) p2 p0.toNatClampNeg (by have := vin_lt g6; omega) _ e7) gX8_becomes_X8_joins rfl hdX8_joins ⟨Nat.le_of_ble_eq_true rfl, Nat.le_of_ble_eq_true rfl⟩ (Nat.le_of_ble_eq_true rfl) rfl ⟨Nat.le_of_ble_eq_true rfl, Nat.le_of_ble_eq_true rfl⟩ rfl rfl dX8_becomes_59 (fun s7 hp => ?_)
      have hp := hp.symm
      subst hp
      try dsimp only at h
      refine r_aload_n G 0 rfl rfl dX8_becomes_62 ?_
      refine r_get G (C := RX8) (T := TX8) (N := 19) kX8_becomes_X8 67 (mw_MO bd κ _) rfl 2 (by decide) mX8_becomes_f30 rfl rfl dX8_becomes_63 ?_
      refine r_aload_n G 0 rfl rfl dX8_becomes_66 ?_
      refine r_get G (C := RX8) (T := TX8) (N := 19) kX8_becomes_X8 67 (mw_MO bd κ _) rfl 1 (by decide) mX8_becomes_f27 rfl rfl dX8_becomes_67 ?_
      refine r_iload_n G 1 rfl rfl dX8_becomes_70 ?_
      obtain ⟨g8, h⟩ := og h
      refine r_aldA G 68 5 (mw_SETSG bd κ _) rfl (vin_in g8) rfl dX8_becomes_71 ?_
      obtain ⟨o9, e9, h⟩ := ob h
      refine r_callSi G [.ref (bd 8), .ref (bd p0.toNatClampNeg)] (qX8_areSame hE 8 (by decide) p0.toNatClampNeg (by have := vin_lt g8; omega) _ e9) gX8_becomes_X8_areSame rfl hdX8_areSame ⟨Nat.le_of_ble_eq_true rfl, Nat.le_of_ble_eq_true rfl⟩ (Nat.le_of_ble_eq_true rfl) rfl ⟨Nat.le_of_ble_eq_true rfl, Nat.le_of_ble_eq_true rfl⟩ rfl rfl dX8_becomes_72 (fun r9 s9 hp hn9 => ?_)
      subst hp
      try dsimp only at h
      refine r_if_ne G (tgt := 82) dX8_becomes_75 (by decide) (fun c => ?_) (fun c => ?_)
      · rw [if_neg c] at h
        refine r_iconst G (v := 0) (by decide) dX8_becomes_82 ?_
        exact hret _ _ _ _ _ _ dX8_becomes_83 (Option.some.inj h).symm rfl (Nat.le_of_ble_eq_true rfl) (Nat.le_of_ble_eq_true rfl)
      · rw [if_pos c] at h
        refine r_iconst G (v := 1) (by decide) dX8_becomes_78 ?_
        refine r_goto G (tgt := 83) dX8_becomes_79 (by decide) ?_
        exact hret _ _ _ _ _ _ dX8_becomes_83 (Option.some.inj h).symm rfl (Nat.le_of_ble_eq_true rfl) (Nat.le_of_ble_eq_true rfl)
    · rw [if_pos c] at h
      refine r_iconst G (v := 0) (by decide) dX8_becomes_27 ?_
      exact hret _ _ _ _ _ _ dX8_becomes_28 (Option.some.inj h).symm rfl (Nat.le_of_ble_eq_true rfl) (Nat.le_of_ble_eq_true rfl)
  · rw [if_neg c] at h
    refine r_iload_n G 2 rfl rfl dX8_becomes_8 ?_
    refine r_callSi G [.int p1] (qX8_isSet hE p1 _) gX8_becomes_X8_isSet rfl hdX8_isSet ⟨Nat.le_of_ble_eq_true rfl, Nat.le_of_ble_eq_true rfl⟩ (Nat.le_of_ble_eq_true rfl) rfl ⟨Nat.le_of_ble_eq_true rfl, Nat.le_of_ble_eq_true rfl⟩ rfl rfl dX8_becomes_9 (fun r10 s10 hp hn10 => ?_)
    obtain ⟨rfl, hs⟩ := hp
    have hs := hs.symm
    subst hs
    refine r_if_eq G (tgt := 19) dX8_becomes_12 (by decide) (fun c => ?_) (fun c => ?_)
    · rw [if_pos c] at h
      refine r_iconst G (v := 0) (by decide) dX8_becomes_19 ?_
      refine r_iconst G (v := 1) (by decide) dX8_becomes_20 ?_
      obtain ⟨o11, e11, h⟩ := ob h
      refine r_callVi G [.int 0, .int 1] (qX8_passes hE (0 : Int32) (1 : Int32) _ e11) ⟨67, 8, _, _, rfl, (mw_MO bd κ _), rfl⟩ gX8_becomes_X8_passes rfl hdX8_passes ⟨Nat.le_of_ble_eq_true rfl, Nat.le_of_ble_eq_true rfl⟩ (Nat.le_of_ble_eq_true rfl) rfl ⟨Nat.le_of_ble_eq_true rfl, Nat.le_of_ble_eq_true rfl⟩ rfl rfl dX8_becomes_21 (fun r11 s11 hp hn11 => ?_)
      subst hp
      try dsimp only at h
      refine r_if_ne G (tgt := 29) dX8_becomes_24 (by decide) (fun c => ?_) (fun c => ?_)
      · rw [if_neg c] at h
        refine r_aload_n G 0 rfl rfl dX8_becomes_29 ?_
        refine r_get G (C := RX8) (T := TX8) (N := 19) kX8_becomes_X8 67 (mw_MO bd κ _) rfl 1 (by decide) mX8_becomes_f27 rfl rfl dX8_becomes_30 ?_
        refine r_iload_n G 1 rfl rfl dX8_becomes_33 ?_
        obtain ⟨g12, h⟩ := og h
        refine r_aldA G 68 5 (mw_SETSG bd κ _) rfl (vin_in g12) rfl dX8_becomes_34 ?_
        refine r_aload_n G 0 rfl rfl dX8_becomes_35 ?_
        refine r_get G (C := RX8) (T := TX8) (N := 19) kX8_becomes_X8 67 (mw_MO bd κ _) rfl 2 (by decide) mX8_becomes_f30 rfl rfl dX8_becomes_36 ?_
        obtain ⟨o13, e13, h⟩ := ob h
        refine r_callSv G [.ref (bd p0.toNatClampNeg), .ref (bd 8)] (qX8_copies hE p0.toNatClampNeg (by have := vin_lt g12; omega) 8 (by decide) _ e13) gX8_becomes_X8_copies rfl hdX8_copies ⟨Nat.le_of_ble_eq_true rfl, Nat.le_of_ble_eq_true rfl⟩ (Nat.le_of_ble_eq_true rfl) rfl ⟨Nat.le_of_ble_eq_true rfl, Nat.le_of_ble_eq_true rfl⟩ rfl rfl dX8_becomes_39 (fun s13 hp => ?_)
        have hp := hp.symm
        subst hp
        try dsimp only at h
        refine r_aload_n G 0 rfl rfl dX8_becomes_42 ?_
        refine r_get G (C := RX8) (T := TX8) (N := 19) kX8_becomes_X8 67 (mw_MO bd κ _) rfl 2 (by decide) mX8_becomes_f30 rfl rfl dX8_becomes_43 ?_
        refine r_aload_n G 0 rfl rfl dX8_becomes_46 ?_
        refine r_get G (C := RX8) (T := TX8) (N := 19) kX8_becomes_X8 67 (mw_MO bd κ _) rfl 1 (by decide) mX8_becomes_f27 rfl rfl dX8_becomes_47 ?_
        refine r_iload_n G 2 rfl rfl dX8_becomes_50 ?_
        obtain ⟨g14, h⟩ := og h
        refine r_aldA G 68 5 (mw_SETSG bd κ _) rfl (vin_in g14) rfl dX8_becomes_51 ?_
        refine r_iload_n G 3 rfl rfl dX8_becomes_52 ?_
        refine r_aload_n G 0 rfl rfl dX8_becomes_53 ?_
        refine r_get G (C := RX8) (T := TX8) (N := 19) kX8_becomes_X8 67 (mw_MO bd κ _) rfl 1 (by decide) mX8_becomes_f27 rfl rfl dX8_becomes_54 ?_
        refine r_iload_n G 1 rfl rfl dX8_becomes_57 ?_
        obtain ⟨g15, h⟩ := og h
        refine r_aldA G 68 5 (mw_SETSG bd κ _) rfl (vin_in g15) rfl dX8_becomes_58 ?_
        obtain ⟨o16, e16, h⟩ := ob h
        refine r_callSv G [.ref (bd 8), .ref (bd p1.toNatClampNeg), .int p2, .ref (bd p0.toNatClampNeg)] (qX8_joins hE 8 (by decide) p1.toNatClampNeg (by have := vin_lt g14; omega) p2 p0.toNatClampNeg (by have := vin_lt g15; omega) _ e16) gX8_becomes_X8_joins rfl hdX8_joins ⟨Nat.le_of_ble_eq_true rfl, Nat.le_of_ble_eq_true rfl⟩ (Nat.le_of_ble_eq_true rfl) rfl ⟨Nat.le_of_ble_eq_true rfl, Nat.le_of_ble_eq_true rfl⟩ rfl rfl dX8_becomes_59 (fun s16 hp => ?_)
        have hp := hp.symm
        subst hp
        try dsimp only at h
        refine r_aload_n G 0 rfl rfl dX8_becomes_62 ?_
        refine r_get G (C := RX8) (T := TX8) (N := 19) kX8_becomes_X8 67 (mw_MO bd κ _) rfl 2 (by decide) mX8_becomes_f30 rfl rfl dX8_becomes_63 ?_
        refine r_aload_n G 0 rfl rfl dX8_becomes_66 ?_
        refine r_get G (C := RX8) (T := TX8) (N := 19) kX8_becomes_X8 67 (mw_MO bd κ _) rfl 1 (by decide) mX8_becomes_f27 rfl rfl dX8_becomes_67 ?_
        refine r_iload_n G 1 rfl rfl dX8_becomes_70 ?_
        obtain ⟨g17, h⟩ := og h
        refine r_aldA G 68 5 (mw_SETSG bd κ _) rfl (vin_in g17) rfl dX8_becomes_71 ?_
        obtain ⟨o18, e18, h⟩ := ob h
        refine r_callSi G [.ref (bd 8), .ref (bd p0.toNatClampNeg)] (qX8_areSame hE 8 (by decide) p0.toNatClampNeg (by have := vin_lt g17; omega) _ e18) gX8_becomes_X8_areSame rfl hdX8_areSame ⟨Nat.le_of_ble_eq_true rfl, Nat.le_of_ble_eq_true rfl⟩ (Nat.le_of_ble_eq_true rfl) rfl ⟨Nat.le_of_ble_eq_true rfl, Nat.le_of_ble_eq_true rfl⟩ rfl rfl dX8_becomes_72 (fun r18 s18 hp hn18 => ?_)
        subst hp
        try dsimp only at h
        refine r_if_ne G (tgt := 82) dX8_becomes_75 (by decide) (fun c => ?_) (fun c => ?_)
        · rw [if_neg c] at h
          refine r_iconst G (v := 0) (by decide) dX8_becomes_82 ?_
          exact hret _ _ _ _ _ _ dX8_becomes_83 (Option.some.inj h).symm rfl (Nat.le_of_ble_eq_true rfl) (Nat.le_of_ble_eq_true rfl)
        · rw [if_pos c] at h
          refine r_iconst G (v := 1) (by decide) dX8_becomes_78 ?_
          refine r_goto G (tgt := 83) dX8_becomes_79 (by decide) ?_
          exact hret _ _ _ _ _ _ dX8_becomes_83 (Option.some.inj h).symm rfl (Nat.le_of_ble_eq_true rfl) (Nat.le_of_ble_eq_true rfl)
      · rw [if_pos c] at h
        refine r_iconst G (v := 0) (by decide) dX8_becomes_27 ?_
        exact hret _ _ _ _ _ _ dX8_becomes_28 (Option.some.inj h).symm rfl (Nat.le_of_ble_eq_true rfl) (Nat.le_of_ble_eq_true rfl)
    · rw [if_neg c] at h
      refine r_iconst G (v := 1) (by decide) dX8_becomes_15 ?_
      refine r_goto G (tgt := 20) dX8_becomes_16 (by decide) ?_
      refine r_iconst G (v := 1) (by decide) dX8_becomes_20 ?_
      obtain ⟨o19, e19, h⟩ := ob h
      refine r_callVi G [.int 1, .int 1] (qX8_passes hE (1 : Int32) (1 : Int32) _ e19) ⟨67, 8, _, _, rfl, (mw_MO bd κ _), rfl⟩ gX8_becomes_X8_passes rfl hdX8_passes ⟨Nat.le_of_ble_eq_true rfl, Nat.le_of_ble_eq_true rfl⟩ (Nat.le_of_ble_eq_true rfl) rfl ⟨Nat.le_of_ble_eq_true rfl, Nat.le_of_ble_eq_true rfl⟩ rfl rfl dX8_becomes_21 (fun r19 s19 hp hn19 => ?_)
      subst hp
      try dsimp only at h
      refine r_if_ne G (tgt := 29) dX8_becomes_24 (by decide) (fun c => ?_) (fun c => ?_)
      · rw [if_neg c] at h
        refine r_aload_n G 0 rfl rfl dX8_becomes_29 ?_
        refine r_get G (C := RX8) (T := TX8) (N := 19) kX8_becomes_X8 67 (mw_MO bd κ _) rfl 1 (by decide) mX8_becomes_f27 rfl rfl dX8_becomes_30 ?_
        refine r_iload_n G 1 rfl rfl dX8_becomes_33 ?_
        obtain ⟨g20, h⟩ := og h
        refine r_aldA G 68 5 (mw_SETSG bd κ _) rfl (vin_in g20) rfl dX8_becomes_34 ?_
        refine r_aload_n G 0 rfl rfl dX8_becomes_35 ?_
        refine r_get G (C := RX8) (T := TX8) (N := 19) kX8_becomes_X8 67 (mw_MO bd κ _) rfl 2 (by decide) mX8_becomes_f30 rfl rfl dX8_becomes_36 ?_
        obtain ⟨o21, e21, h⟩ := ob h
        refine r_callSv G [.ref (bd p0.toNatClampNeg), .ref (bd 8)] (qX8_copies hE p0.toNatClampNeg (by have := vin_lt g20; omega) 8 (by decide) _ e21) gX8_becomes_X8_copies rfl hdX8_copies ⟨Nat.le_of_ble_eq_true rfl, Nat.le_of_ble_eq_true rfl⟩ (Nat.le_of_ble_eq_true rfl) rfl ⟨Nat.le_of_ble_eq_true rfl, Nat.le_of_ble_eq_true rfl⟩ rfl rfl dX8_becomes_39 (fun s21 hp => ?_)
        have hp := hp.symm
        subst hp
        try dsimp only at h
        refine r_aload_n G 0 rfl rfl dX8_becomes_42 ?_
        refine r_get G (C := RX8) (T := TX8) (N := 19) kX8_becomes_X8 67 (mw_MO bd κ _) rfl 2 (by decide) mX8_becomes_f30 rfl rfl dX8_becomes_43 ?_
        refine r_aload_n G 0 rfl rfl dX8_becomes_46 ?_
        refine r_get G (C := RX8) (T := TX8) (N := 19) kX8_becomes_X8 67 (mw_MO bd κ _) rfl 1 (by decide) mX8_becomes_f27 rfl rfl dX8_becomes_47 ?_
        refine r_iload_n G 2 rfl rfl dX8_becomes_50 ?_
        obtain ⟨g22, h⟩ := og h
        refine r_aldA G 68 5 (mw_SETSG bd κ _) rfl (vin_in g22) rfl dX8_becomes_51 ?_
        refine r_iload_n G 3 rfl rfl dX8_becomes_52 ?_
        refine r_aload_n G 0 rfl rfl dX8_becomes_53 ?_
        refine r_get G (C := RX8) (T := TX8) (N := 19) kX8_becomes_X8 67 (mw_MO bd κ _) rfl 1 (by decide) mX8_becomes_f27 rfl rfl dX8_becomes_54 ?_
        refine r_iload_n G 1 rfl rfl dX8_becomes_57 ?_
        obtain ⟨g23, h⟩ := og h
        refine r_aldA G 68 5 (mw_SETSG bd κ _) rfl (vin_in g23) rfl dX8_becomes_58 ?_
        obtain ⟨o24, e24, h⟩ := ob h
        refine r_callSv G [.ref (bd 8), .ref (bd p1.toNatClampNeg), .int p2, .ref (bd p0.toNatClampNeg)] (qX8_joins hE 8 (by decide) p1.toNatClampNeg (by have := vin_lt g22; omega) p2 p0.toNatClampNeg (by have := vin_lt g23; omega) _ e24) gX8_becomes_X8_joins rfl hdX8_joins ⟨Nat.le_of_ble_eq_true rfl, Nat.le_of_ble_eq_true rfl⟩ (Nat.le_of_ble_eq_true rfl) rfl ⟨Nat.le_of_ble_eq_true rfl, Nat.le_of_ble_eq_true rfl⟩ rfl rfl dX8_becomes_59 (fun s24 hp => ?_)
        have hp := hp.symm
        subst hp
        try dsimp only at h
        refine r_aload_n G 0 rfl rfl dX8_becomes_62 ?_
        refine r_get G (C := RX8) (T := TX8) (N := 19) kX8_becomes_X8 67 (mw_MO bd κ _) rfl 2 (by decide) mX8_becomes_f30 rfl rfl dX8_becomes_63 ?_
        refine r_aload_n G 0 rfl rfl dX8_becomes_66 ?_
        refine r_get G (C := RX8) (T := TX8) (N := 19) kX8_becomes_X8 67 (mw_MO bd κ _) rfl 1 (by decide) mX8_becomes_f27 rfl rfl dX8_becomes_67 ?_
        refine r_iload_n G 1 rfl rfl dX8_becomes_70 ?_
        obtain ⟨g25, h⟩ := og h
        refine r_aldA G 68 5 (mw_SETSG bd κ _) rfl (vin_in g25) rfl dX8_becomes_71 ?_
        obtain ⟨o26, e26, h⟩ := ob h
        refine r_callSi G [.ref (bd 8), .ref (bd p0.toNatClampNeg)] (qX8_areSame hE 8 (by decide) p0.toNatClampNeg (by have := vin_lt g25; omega) _ e26) gX8_becomes_X8_areSame rfl hdX8_areSame ⟨Nat.le_of_ble_eq_true rfl, Nat.le_of_ble_eq_true rfl⟩ (Nat.le_of_ble_eq_true rfl) rfl ⟨Nat.le_of_ble_eq_true rfl, Nat.le_of_ble_eq_true rfl⟩ rfl rfl dX8_becomes_72 (fun r26 s26 hp hn26 => ?_)
        subst hp
        try dsimp only at h
        refine r_if_ne G (tgt := 82) dX8_becomes_75 (by decide) (fun c => ?_) (fun c => ?_)
        · rw [if_neg c] at h
          refine r_iconst G (v := 0) (by decide) dX8_becomes_82 ?_
          exact hret _ _ _ _ _ _ dX8_becomes_83 (Option.some.inj h).symm rfl (Nat.le_of_ble_eq_true rfl) (Nat.le_of_ble_eq_true rfl)
        · rw [if_pos c] at h
          refine r_iconst G (v := 1) (by decide) dX8_becomes_78 ?_
          refine r_goto G (tgt := 83) dX8_becomes_79 (by decide) ?_
          exact hret _ _ _ _ _ _ dX8_becomes_83 (Option.some.inj h).symm rfl (Nat.le_of_ble_eq_true rfl) (Nat.le_of_ble_eq_true rfl)
      · rw [if_pos c] at h
        refine r_iconst G (v := 0) (by decide) dX8_becomes_27 ?_
        exact hret _ _ _ _ _ _ dX8_becomes_28 (Option.some.inj h).symm rfl (Nat.le_of_ble_eq_true rfl) (Nat.le_of_ble_eq_true rfl)
abbrev rmX8_unite : Room := { frames := 3, cells := 0, slots := 0, locals := 66 }
theorem hdX8_becomes : yX8_becomes.cls = RX8 ∧ yX8_becomes.cls ≠ "java/lang/invoke/MethodHandle" ∧ yX8_becomes.cls ≠ "java/lang/invoke/VarHandle" ∧ (parseMethodDescriptor yX8_becomes.desc).map (fun d => d.parameters.length) = some 3 := by decide +kernel
set_option maxHeartbeats 4000000 in
set_option maxRecDepth 100000 in
theorem qX8_unite {E : evT} {l : Launch} {D : va_G} {bd : Nat → Nat} {κ : Nat → ClassId} (hE : EvOk E) (p0 : Int32) (p1 : Int32) (s : mS) {o : (Int32 × mS)} (h : fX8_unite p0 p1 s = some o) : Ci l yX8_unite wsX8_unite rmX8_unite (mW bd κ) E D (tyA κ) .boolean [.ref (bd 67), .int p0, .int p1] s (fun r s2 => o = (r, s2)) := by
  rw [fX8_unite] at h
  refine s_i (cc := cX8_unite) (nL := 3) (own := RX8) hE (mW_WA bd κ) (plainFor_of_name (by decide)) rfl rfl (Nat.le_of_ble_eq_true rfl) (fun Γ G hret => ?_)
  refine r_aload_n G 0 rfl rfl dX8_unite_0 ?_
  refine r_iload_n G 1 rfl rfl dX8_unite_1 ?_
  refine r_iload_n G 2 rfl rfl dX8_unite_2 ?_
  refine r_iconst G (v := 0) (by decide) dX8_unite_3 ?_
  obtain ⟨o1, e1, h⟩ := ob h
  refine r_callVi G [.int p0, .int p1, .int 0] (qX8_becomes hE p0 p1 (0 : Int32) _ e1) ⟨67, 8, _, _, rfl, (mw_MO bd κ _), rfl⟩ gX8_unite_X8_becomes rfl hdX8_becomes ⟨Nat.le_of_ble_eq_true rfl, Nat.le_of_ble_eq_true rfl⟩ (Nat.le_of_ble_eq_true rfl) rfl ⟨Nat.le_of_ble_eq_true rfl, Nat.le_of_ble_eq_true rfl⟩ rfl rfl dX8_unite_4 (fun r1 s1 hp hn1 => ?_)
  subst hp
  try dsimp only at h
  exact hret _ _ _ _ _ _ dX8_unite_7 (Option.some.inj h).symm hn1 (Nat.le_of_ble_eq_true rfl) (Nat.le_of_ble_eq_true rfl)
abbrev rmX8_meet : Room := { frames := 3, cells := 0, slots := 0, locals := 66 }
set_option maxHeartbeats 4000000 in
set_option maxRecDepth 100000 in
theorem qX8_meet {E : evT} {l : Launch} {D : va_G} {bd : Nat → Nat} {κ : Nat → ClassId} (hE : EvOk E) (p0 : Int32) (p1 : Int32) (s : mS) {o : (Int32 × mS)} (h : fX8_meet p0 p1 s = some o) : Ci l yX8_meet wsX8_meet rmX8_meet (mW bd κ) E D (tyA κ) .boolean [.ref (bd 67), .int p0, .int p1] s (fun r s2 => o = (r, s2)) := by
  rw [fX8_meet] at h
  refine s_i (cc := cX8_meet) (nL := 3) (own := RX8) hE (mW_WA bd κ) (plainFor_of_name (by decide)) rfl rfl (Nat.le_of_ble_eq_true rfl) (fun Γ G hret => ?_)
  refine r_aload_n G 0 rfl rfl dX8_meet_0 ?_
  refine r_iload_n G 1 rfl rfl dX8_meet_1 ?_
  refine r_iload_n G 2 rfl rfl dX8_meet_2 ?_
  refine r_iconst G (v := 1) (by decide) dX8_meet_3 ?_
  obtain ⟨o1, e1, h⟩ := ob h
  refine r_callVi G [.int p0, .int p1, .int 1] (qX8_becomes hE p0 p1 (1 : Int32) _ e1) ⟨67, 8, _, _, rfl, (mw_MO bd κ _), rfl⟩ gX8_meet_X8_becomes rfl hdX8_becomes ⟨Nat.le_of_ble_eq_true rfl, Nat.le_of_ble_eq_true rfl⟩ (Nat.le_of_ble_eq_true rfl) rfl ⟨Nat.le_of_ble_eq_true rfl, Nat.le_of_ble_eq_true rfl⟩ rfl rfl dX8_meet_4 (fun r1 s1 hp hn1 => ?_)
  subst hp
  try dsimp only at h
  exact hret _ _ _ _ _ _ dX8_meet_7 (Option.some.inj h).symm hn1 (Nat.le_of_ble_eq_true rfl) (Nat.le_of_ble_eq_true rfl)
abbrev rmX8_without : Room := { frames := 3, cells := 0, slots := 0, locals := 66 }
set_option maxHeartbeats 4000000 in
set_option maxRecDepth 100000 in
theorem qX8_without {E : evT} {l : Launch} {D : va_G} {bd : Nat → Nat} {κ : Nat → ClassId} (hE : EvOk E) (p0 : Int32) (p1 : Int32) (s : mS) {o : (Int32 × mS)} (h : fX8_without p0 p1 s = some o) : Ci l yX8_without wsX8_without rmX8_without (mW bd κ) E D (tyA κ) .boolean [.ref (bd 67), .int p0, .int p1] s (fun r s2 => o = (r, s2)) := by
  rw [fX8_without] at h
  refine s_i (cc := cX8_without) (nL := 3) (own := RX8) hE (mW_WA bd κ) (plainFor_of_name (by decide)) rfl rfl (Nat.le_of_ble_eq_true rfl) (fun Γ G hret => ?_)
  refine r_aload_n G 0 rfl rfl dX8_without_0 ?_
  refine r_iload_n G 1 rfl rfl dX8_without_1 ?_
  refine r_iload_n G 2 rfl rfl dX8_without_2 ?_
  refine r_iconst G (v := 2) (by decide) dX8_without_3 ?_
  obtain ⟨o1, e1, h⟩ := ob h
  refine r_callVi G [.int p0, .int p1, .int 2] (qX8_becomes hE p0 p1 (2 : Int32) _ e1) ⟨67, 8, _, _, rfl, (mw_MO bd κ _), rfl⟩ gX8_without_X8_becomes rfl hdX8_becomes ⟨Nat.le_of_ble_eq_true rfl, Nat.le_of_ble_eq_true rfl⟩ (Nat.le_of_ble_eq_true rfl) rfl ⟨Nat.le_of_ble_eq_true rfl, Nat.le_of_ble_eq_true rfl⟩ rfl rfl dX8_without_4 (fun r1 s1 hp hn1 => ?_)
  subst hp
  try dsimp only at h
  exact hret _ _ _ _ _ _ dX8_without_7 (Option.some.inj h).symm hn1 (Nat.le_of_ble_eq_true rfl) (Nat.le_of_ble_eq_true rfl)
abbrev rmX8_copy : Room := { frames := 2, cells := 0, slots := 0, locals := 42 }
set_option maxRecDepth 20000 in
theorem kX8_copy_X8 : ∀ w ∈ u_ws RX8 TX8 19, w ∈ wsX8_copy := by decide +kernel
set_option maxRecDepth 20000 in
theorem mX8_copy_f27 : Cond.fieldLink RX8 27 "SetCouncilModel" "sets" "[[Z" ∈ wsX8_copy := by decide +kernel
set_option maxHeartbeats 4000000 in
set_option maxRecDepth 100000 in
theorem qX8_copy {E : evT} {l : Launch} {D : va_G} {bd : Nat → Nat} {κ : Nat → ClassId} (hE : EvOk E) (p0 : Int32) (p1 : Int32) (s : mS) {o : (Int32 × mS)} (h : fX8_copy p0 p1 s = some o) : Ci l yX8_copy wsX8_copy rmX8_copy (mW bd κ) E D (tyA κ) .int [.ref (bd 67), .int p0, .int p1] s (fun r s2 => o = (r, s2)) := by
  rw [fX8_copy] at h
  refine s_i (cc := cX8_copy) (nL := 3) (own := RX8) hE (mW_WA bd κ) (plainFor_of_name (by decide)) rfl rfl (Nat.le_of_ble_eq_true rfl) (fun Γ G hret => ?_)
  refine r_aload_n G 0 rfl rfl dX8_copy_0 ?_
  refine r_iload_n G 1 rfl rfl dX8_copy_1 ?_
  refine r_callSi G [.int p0] (qX8_isSet hE p0 _) gX8_copy_X8_isSet rfl hdX8_isSet ⟨Nat.le_of_ble_eq_true rfl, Nat.le_of_ble_eq_true rfl⟩ (Nat.le_of_ble_eq_true rfl) rfl ⟨Nat.le_of_ble_eq_true rfl, Nat.le_of_ble_eq_true rfl⟩ rfl rfl dX8_copy_2 (fun r1 s1 hp hn1 => ?_)
  obtain ⟨rfl, hs⟩ := hp
  have hs := hs.symm
  subst hs
  refine r_if_eq G (tgt := 19) dX8_copy_5 (by decide) (fun c => ?_) (fun c => ?_)
  · rw [if_pos c] at h
    refine r_iconst G (v := 0) (by decide) dX8_copy_19 ?_
    refine r_iconst G (v := 1) (by decide) dX8_copy_20 ?_
    obtain ⟨o2, e2, h⟩ := ob h
    refine r_callVi G [.int 0, .int 1] (qX8_passes hE (0 : Int32) (1 : Int32) _ e2) ⟨67, 8, _, _, rfl, (mw_MO bd κ _), rfl⟩ gX8_copy_X8_passes rfl hdX8_passes ⟨Nat.le_of_ble_eq_true rfl, Nat.le_of_ble_eq_true rfl⟩ (Nat.le_of_ble_eq_true rfl) rfl ⟨Nat.le_of_ble_eq_true rfl, Nat.le_of_ble_eq_true rfl⟩ rfl rfl dX8_copy_21 (fun r2 s2 hp hn2 => ?_)
    subst hp
    try dsimp only at h
    refine r_if_ne G (tgt := 29) dX8_copy_24 (by decide) (fun c => ?_) (fun c => ?_)
    · rw [if_neg c] at h
      refine r_aload_n G 0 rfl rfl dX8_copy_29 ?_
      refine r_get G (C := RX8) (T := TX8) (N := 19) kX8_copy_X8 67 (mw_MO bd κ _) rfl 1 (by decide) mX8_copy_f27 rfl rfl dX8_copy_30 ?_
      refine r_iload_n G 2 rfl rfl dX8_copy_33 ?_
      obtain ⟨g3, h⟩ := og h
      refine r_aldA G 68 5 (mw_SETSG bd κ _) rfl (vin_in g3) rfl dX8_copy_34 ?_
      refine r_aload_n G 0 rfl rfl dX8_copy_35 ?_
      refine r_get G (C := RX8) (T := TX8) (N := 19) kX8_copy_X8 67 (mw_MO bd κ _) rfl 1 (by decide) mX8_copy_f27 rfl rfl dX8_copy_36 ?_
      refine r_iload_n G 1 rfl rfl dX8_copy_39 ?_
      obtain ⟨g4, h⟩ := og h
      refine r_aldA G 68 5 (mw_SETSG bd κ _) rfl (vin_in g4) rfl dX8_copy_40 ?_
      obtain ⟨o5, e5, h⟩ := ob h
      refine r_callSv G [.ref (bd p1.toNatClampNeg), .ref (bd p0.toNatClampNeg)] (qX8_copies hE p1.toNatClampNeg (by have := vin_lt g3; omega) p0.toNatClampNeg (by have := vin_lt g4; omega) _ e5) gX8_copy_X8_copies rfl hdX8_copies ⟨Nat.le_of_ble_eq_true rfl, Nat.le_of_ble_eq_true rfl⟩ (Nat.le_of_ble_eq_true rfl) rfl ⟨Nat.le_of_ble_eq_true rfl, Nat.le_of_ble_eq_true rfl⟩ rfl rfl dX8_copy_41 (fun s5 hp => ?_)
      have hp := hp.symm
      subst hp
      try dsimp only at h
      refine r_aload_n G 0 rfl rfl dX8_copy_44 ?_
      refine r_get G (C := RX8) (T := TX8) (N := 19) kX8_copy_X8 67 (mw_MO bd κ _) rfl 1 (by decide) mX8_copy_f27 rfl rfl dX8_copy_45 ?_
      refine r_iload_n G 1 rfl rfl dX8_copy_48 ?_
      obtain ⟨g6, h⟩ := og h
      refine r_aldA G 68 5 (mw_SETSG bd κ _) rfl (vin_in g6) rfl dX8_copy_49 ?_
      obtain ⟨o7, e7, h⟩ := ob h
      refine r_callSi G [.ref (bd p0.toNatClampNeg)] (qX8_sizeOf hE p0.toNatClampNeg (by have := vin_lt g6; omega) _ e7) gX8_copy_X8_sizeOf rfl hdX8_sizeOf ⟨Nat.le_of_ble_eq_true rfl, Nat.le_of_ble_eq_true rfl⟩ (Nat.le_of_ble_eq_true rfl) rfl ⟨Nat.le_of_ble_eq_true rfl, Nat.le_of_ble_eq_true rfl⟩ rfl rfl dX8_copy_50 (fun r7 s7 hp hn7 => ?_)
      subst hp
      try dsimp only at h
      exact hret _ _ _ _ _ _ dX8_copy_53 (Option.some.inj h).symm rfl (Nat.le_of_ble_eq_true rfl) (Nat.le_of_ble_eq_true rfl)
    · rw [if_pos c] at h
      refine r_iconst G (v := 0) (by decide) dX8_copy_27 ?_
      exact hret _ _ _ _ _ _ dX8_copy_28 (Option.some.inj h).symm rfl (Nat.le_of_ble_eq_true rfl) (Nat.le_of_ble_eq_true rfl)
  · rw [if_neg c] at h
    refine r_iload_n G 2 rfl rfl dX8_copy_8 ?_
    refine r_callSi G [.int p1] (qX8_isSet hE p1 _) gX8_copy_X8_isSet rfl hdX8_isSet ⟨Nat.le_of_ble_eq_true rfl, Nat.le_of_ble_eq_true rfl⟩ (Nat.le_of_ble_eq_true rfl) rfl ⟨Nat.le_of_ble_eq_true rfl, Nat.le_of_ble_eq_true rfl⟩ rfl rfl dX8_copy_9 (fun r8 s8 hp hn8 => ?_)
    obtain ⟨rfl, hs⟩ := hp
    have hs := hs.symm
    subst hs
    refine r_if_eq G (tgt := 19) dX8_copy_12 (by decide) (fun c => ?_) (fun c => ?_)
    · rw [if_pos c] at h
      refine r_iconst G (v := 0) (by decide) dX8_copy_19 ?_
      refine r_iconst G (v := 1) (by decide) dX8_copy_20 ?_
      obtain ⟨o9, e9, h⟩ := ob h
      refine r_callVi G [.int 0, .int 1] (qX8_passes hE (0 : Int32) (1 : Int32) _ e9) ⟨67, 8, _, _, rfl, (mw_MO bd κ _), rfl⟩ gX8_copy_X8_passes rfl hdX8_passes ⟨Nat.le_of_ble_eq_true rfl, Nat.le_of_ble_eq_true rfl⟩ (Nat.le_of_ble_eq_true rfl) rfl ⟨Nat.le_of_ble_eq_true rfl, Nat.le_of_ble_eq_true rfl⟩ rfl rfl dX8_copy_21 (fun r9 s9 hp hn9 => ?_)
      subst hp
      try dsimp only at h
      refine r_if_ne G (tgt := 29) dX8_copy_24 (by decide) (fun c => ?_) (fun c => ?_)
      · rw [if_neg c] at h
        refine r_aload_n G 0 rfl rfl dX8_copy_29 ?_
        refine r_get G (C := RX8) (T := TX8) (N := 19) kX8_copy_X8 67 (mw_MO bd κ _) rfl 1 (by decide) mX8_copy_f27 rfl rfl dX8_copy_30 ?_
        refine r_iload_n G 2 rfl rfl dX8_copy_33 ?_
        obtain ⟨g10, h⟩ := og h
        refine r_aldA G 68 5 (mw_SETSG bd κ _) rfl (vin_in g10) rfl dX8_copy_34 ?_
        refine r_aload_n G 0 rfl rfl dX8_copy_35 ?_
        refine r_get G (C := RX8) (T := TX8) (N := 19) kX8_copy_X8 67 (mw_MO bd κ _) rfl 1 (by decide) mX8_copy_f27 rfl rfl dX8_copy_36 ?_
        refine r_iload_n G 1 rfl rfl dX8_copy_39 ?_
        obtain ⟨g11, h⟩ := og h
        refine r_aldA G 68 5 (mw_SETSG bd κ _) rfl (vin_in g11) rfl dX8_copy_40 ?_
        obtain ⟨o12, e12, h⟩ := ob h
        refine r_callSv G [.ref (bd p1.toNatClampNeg), .ref (bd p0.toNatClampNeg)] (qX8_copies hE p1.toNatClampNeg (by have := vin_lt g10; omega) p0.toNatClampNeg (by have := vin_lt g11; omega) _ e12) gX8_copy_X8_copies rfl hdX8_copies ⟨Nat.le_of_ble_eq_true rfl, Nat.le_of_ble_eq_true rfl⟩ (Nat.le_of_ble_eq_true rfl) rfl ⟨Nat.le_of_ble_eq_true rfl, Nat.le_of_ble_eq_true rfl⟩ rfl rfl dX8_copy_41 (fun s12 hp => ?_)
        have hp := hp.symm
        subst hp
        try dsimp only at h
        refine r_aload_n G 0 rfl rfl dX8_copy_44 ?_
        refine r_get G (C := RX8) (T := TX8) (N := 19) kX8_copy_X8 67 (mw_MO bd κ _) rfl 1 (by decide) mX8_copy_f27 rfl rfl dX8_copy_45 ?_
        refine r_iload_n G 1 rfl rfl dX8_copy_48 ?_
        obtain ⟨g13, h⟩ := og h
        refine r_aldA G 68 5 (mw_SETSG bd κ _) rfl (vin_in g13) rfl dX8_copy_49 ?_
        obtain ⟨o14, e14, h⟩ := ob h
        refine r_callSi G [.ref (bd p0.toNatClampNeg)] (qX8_sizeOf hE p0.toNatClampNeg (by have := vin_lt g13; omega) _ e14) gX8_copy_X8_sizeOf rfl hdX8_sizeOf ⟨Nat.le_of_ble_eq_true rfl, Nat.le_of_ble_eq_true rfl⟩ (Nat.le_of_ble_eq_true rfl) rfl ⟨Nat.le_of_ble_eq_true rfl, Nat.le_of_ble_eq_true rfl⟩ rfl rfl dX8_copy_50 (fun r14 s14 hp hn14 => ?_)
        subst hp
        try dsimp only at h
        exact hret _ _ _ _ _ _ dX8_copy_53 (Option.some.inj h).symm rfl (Nat.le_of_ble_eq_true rfl) (Nat.le_of_ble_eq_true rfl)
      · rw [if_pos c] at h
        refine r_iconst G (v := 0) (by decide) dX8_copy_27 ?_
        exact hret _ _ _ _ _ _ dX8_copy_28 (Option.some.inj h).symm rfl (Nat.le_of_ble_eq_true rfl) (Nat.le_of_ble_eq_true rfl)
    · rw [if_neg c] at h
      refine r_iconst G (v := 1) (by decide) dX8_copy_15 ?_
      refine r_goto G (tgt := 20) dX8_copy_16 (by decide) ?_
      refine r_iconst G (v := 1) (by decide) dX8_copy_20 ?_
      obtain ⟨o15, e15, h⟩ := ob h
      refine r_callVi G [.int 1, .int 1] (qX8_passes hE (1 : Int32) (1 : Int32) _ e15) ⟨67, 8, _, _, rfl, (mw_MO bd κ _), rfl⟩ gX8_copy_X8_passes rfl hdX8_passes ⟨Nat.le_of_ble_eq_true rfl, Nat.le_of_ble_eq_true rfl⟩ (Nat.le_of_ble_eq_true rfl) rfl ⟨Nat.le_of_ble_eq_true rfl, Nat.le_of_ble_eq_true rfl⟩ rfl rfl dX8_copy_21 (fun r15 s15 hp hn15 => ?_)
      subst hp
      try dsimp only at h
      refine r_if_ne G (tgt := 29) dX8_copy_24 (by decide) (fun c => ?_) (fun c => ?_)
      · rw [if_neg c] at h
        refine r_aload_n G 0 rfl rfl dX8_copy_29 ?_
        refine r_get G (C := RX8) (T := TX8) (N := 19) kX8_copy_X8 67 (mw_MO bd κ _) rfl 1 (by decide) mX8_copy_f27 rfl rfl dX8_copy_30 ?_
        refine r_iload_n G 2 rfl rfl dX8_copy_33 ?_
        obtain ⟨g16, h⟩ := og h
        refine r_aldA G 68 5 (mw_SETSG bd κ _) rfl (vin_in g16) rfl dX8_copy_34 ?_
        refine r_aload_n G 0 rfl rfl dX8_copy_35 ?_
        refine r_get G (C := RX8) (T := TX8) (N := 19) kX8_copy_X8 67 (mw_MO bd κ _) rfl 1 (by decide) mX8_copy_f27 rfl rfl dX8_copy_36 ?_
        refine r_iload_n G 1 rfl rfl dX8_copy_39 ?_
        obtain ⟨g17, h⟩ := og h
        refine r_aldA G 68 5 (mw_SETSG bd κ _) rfl (vin_in g17) rfl dX8_copy_40 ?_
        obtain ⟨o18, e18, h⟩ := ob h
        refine r_callSv G [.ref (bd p1.toNatClampNeg), .ref (bd p0.toNatClampNeg)] (qX8_copies hE p1.toNatClampNeg (by have := vin_lt g16; omega) p0.toNatClampNeg (by have := vin_lt g17; omega) _ e18) gX8_copy_X8_copies rfl hdX8_copies ⟨Nat.le_of_ble_eq_true rfl, Nat.le_of_ble_eq_true rfl⟩ (Nat.le_of_ble_eq_true rfl) rfl ⟨Nat.le_of_ble_eq_true rfl, Nat.le_of_ble_eq_true rfl⟩ rfl rfl dX8_copy_41 (fun s18 hp => ?_)
        have hp := hp.symm
        subst hp
        try dsimp only at h
        refine r_aload_n G 0 rfl rfl dX8_copy_44 ?_
        refine r_get G (C := RX8) (T := TX8) (N := 19) kX8_copy_X8 67 (mw_MO bd κ _) rfl 1 (by decide) mX8_copy_f27 rfl rfl dX8_copy_45 ?_
        refine r_iload_n G 1 rfl rfl dX8_copy_48 ?_
        obtain ⟨g19, h⟩ := og h
        refine r_aldA G 68 5 (mw_SETSG bd κ _) rfl (vin_in g19) rfl dX8_copy_49 ?_
        obtain ⟨o20, e20, h⟩ := ob h
        refine r_callSi G [.ref (bd p0.toNatClampNeg)] (qX8_sizeOf hE p0.toNatClampNeg (by have := vin_lt g19; omega) _ e20) gX8_copy_X8_sizeOf rfl hdX8_sizeOf ⟨Nat.le_of_ble_eq_true rfl, Nat.le_of_ble_eq_true rfl⟩ (Nat.le_of_ble_eq_true rfl) rfl ⟨Nat.le_of_ble_eq_true rfl, Nat.le_of_ble_eq_true rfl⟩ rfl rfl dX8_copy_50 (fun r20 s20 hp hn20 => ?_)
        subst hp
        try dsimp only at h
        exact hret _ _ _ _ _ _ dX8_copy_53 (Option.some.inj h).symm rfl (Nat.le_of_ble_eq_true rfl) (Nat.le_of_ble_eq_true rfl)
      · rw [if_pos c] at h
        refine r_iconst G (v := 0) (by decide) dX8_copy_27 ?_
        exact hret _ _ _ _ _ _ dX8_copy_28 (Option.some.inj h).symm rfl (Nat.le_of_ble_eq_true rfl) (Nat.le_of_ble_eq_true rfl)
abbrev rmX8_sieve : Room := { frames := 2, cells := 0, slots := 0, locals := 45 }
set_option maxHeartbeats 4000000 in
set_option maxRecDepth 100000 in
theorem wX8_sieve_L45 {E : evT} {l : Launch} {D : va_G} {bd : Nat → Nat} {κ : Nat → ClassId} (hE : EvOk E) {Γ : cxT} (G : Cx (mW bd κ) D (tyA κ) E l Γ cX8_sieve RX8 wsX8_sieve 7 rmX8_sieve) (x1 : Int32) (x2 : Int32) (x3 : Int32) {o : (Int32 × mS)} (hret : ∀ (st2 : mS) (v : Int32) (cells slots pc : Nat) (lv : List (Nat × Value)), decode cX8_sieve pc = .ok (.ireturn, 1) → o = (v, st2) → narrow .int (.int v) = .int v → cells ≤ rmX8_sieve.cells → slots ≤ rmX8_sieve.slots → V (mW bd κ) D Γ st2 cells slots pc lv [.int v]) : ∀ (fuel : Nat) (x4 : Int32) (x5 : Int32) (s : mS), fX8_sieve_L45 x1 x2 x3 fuel x4 x5 s = some o → V (mW bd κ) D Γ s 0 0 45 [(0, .ref (bd 67)), (1, .int x1), (2, .int x2), (3, .int x3), (4, .int x4), (5, .int x5)] [] := by
  intro fuel
  induction fuel with
  | zero =>
    intro _ _ _ h
    have h : none = some o := h
    cases h
  | succ fuel ih =>
    intro x4 x5 s h
    rw [fX8_sieve_L45] at h
    refine r_iload G 5 rfl dX8_sieve_45 ?_
    refine r_bipush G (v := 50) (by decide) dX8_sieve_47 ?_
    refine r_icmp_gt G (tgt := 95) dX8_sieve_49 (by decide) (fun c => ?_) (fun c => ?_)
    · rw [if_pos c] at h
      refine r_iload G 4 rfl dX8_sieve_95 ?_
      exact hret _ _ _ _ _ _ dX8_sieve_97 (Option.some.inj h).symm rfl (Nat.le_of_ble_eq_true rfl) (Nat.le_of_ble_eq_true rfl)
    · rw [if_neg c] at h
      refine r_iload G 5 rfl dX8_sieve_52 ?_
      refine r_iload_n G 2 rfl rfl dX8_sieve_54 ?_
      obtain ⟨g4, h⟩ := og h
      refine r_irem G g4 dX8_sieve_55 ?_
      refine r_iload_n G 2 rfl rfl dX8_sieve_56 ?_
      refine r_iadd G dX8_sieve_57 ?_
      refine r_iload_n G 2 rfl rfl dX8_sieve_58 ?_
      obtain ⟨g5, h⟩ := og h
      refine r_irem G g5 dX8_sieve_59 ?_
      refine r_istore G (lv' := [(0, .ref (bd 67)), (1, .int x1), (2, .int x2), (3, .int x3), (4, .int x4), (5, .int x5), (6, .int (((x5 - x5 / x2 * x2) + x2) - ((x5 - x5 / x2 * x2) + x2) / x2 * x2))]) [1, 2, 3, 4, 5, 6, 0] rfl (by decide) dX8_sieve_60 ?_
      refine r_iload G 4 rfl dX8_sieve_62 ?_
      refine r_iload G 6 rfl dX8_sieve_64 ?_
      refine r_iload_n G 3 rfl rfl dX8_sieve_66 ?_
      refine r_icmp_ne G (tgt := 85) dX8_sieve_67 (by decide) (fun c => ?_) (fun c => ?_)
      · rw [if_neg c] at h
        refine r_iconst G (v := 0) (by decide) dX8_sieve_85 ?_
        refine r_iadd G dX8_sieve_86 ?_
        refine r_istore G (lv' := [(0, .ref (bd 67)), (1, .int x1), (2, .int x2), (3, .int x3), (4, .int (x4 + 0)), (5, .int x5)]) [1, 2, 3, 4, 0, 5] rfl (by decide) dX8_sieve_87 ?_
        refine r_iinc G (j := 5) rfl (v := x5 + 1) (lv' := [(0, .ref (bd 67)), (1, .int x1), (2, .int x2), (3, .int x3), (4, .int (x4 + 0)), (5, .int (x5 + 1))]) rfl [1, 2, 3, 4, 5, 0] rfl (by decide) dX8_sieve_89 ?_
        refine r_goto G (tgt := 45) dX8_sieve_92 (by decide) ?_
        exact ih _ _ _ h
      · rw [if_pos c] at h
        refine r_aload_n G 0 rfl rfl dX8_sieve_70 ?_
        refine r_iload_n G 1 rfl rfl dX8_sieve_71 ?_
        refine r_iload G 5 rfl dX8_sieve_72 ?_
        refine r_iconst G (v := 0) (by decide) dX8_sieve_74 ?_
        obtain ⟨o6, e6, h⟩ := ob h
        refine r_callVi G [.int x1, .int x5, .int 0] (qX8_puts hE x1 x5 (0 : Int32) _ e6) ⟨67, 8, _, _, rfl, (mw_MO bd κ _), rfl⟩ gX8_sieve_X8_puts rfl hdX8_puts ⟨Nat.le_of_ble_eq_true rfl, Nat.le_of_ble_eq_true rfl⟩ (Nat.le_of_ble_eq_true rfl) rfl ⟨Nat.le_of_ble_eq_true rfl, Nat.le_of_ble_eq_true rfl⟩ rfl rfl dX8_sieve_75 (fun r6 s6 hp hn6 => ?_)
        subst hp
        try dsimp only at h
        refine r_if_eq G (tgt := 85) dX8_sieve_78 (by decide) (fun c => ?_) (fun c => ?_)
        · rw [if_pos c] at h
          refine r_iconst G (v := 0) (by decide) dX8_sieve_85 ?_
          refine r_iadd G dX8_sieve_86 ?_
          refine r_istore G (lv' := [(0, .ref (bd 67)), (1, .int x1), (2, .int x2), (3, .int x3), (4, .int (x4 + 0)), (5, .int x5)]) [1, 2, 3, 4, 0, 5] rfl (by decide) dX8_sieve_87 ?_
          refine r_iinc G (j := 5) rfl (v := x5 + 1) (lv' := [(0, .ref (bd 67)), (1, .int x1), (2, .int x2), (3, .int x3), (4, .int (x4 + 0)), (5, .int (x5 + 1))]) rfl [1, 2, 3, 4, 5, 0] rfl (by decide) dX8_sieve_89 ?_
          refine r_goto G (tgt := 45) dX8_sieve_92 (by decide) ?_
          exact ih _ _ _ h
        · rw [if_neg c] at h
          refine r_iconst G (v := 1) (by decide) dX8_sieve_81 ?_
          refine r_goto G (tgt := 86) dX8_sieve_82 (by decide) ?_
          refine r_iadd G dX8_sieve_86 ?_
          refine r_istore G (lv' := [(0, .ref (bd 67)), (1, .int x1), (2, .int x2), (3, .int x3), (4, .int (x4 + 1)), (5, .int x5)]) [1, 2, 3, 4, 0, 5] rfl (by decide) dX8_sieve_87 ?_
          refine r_iinc G (j := 5) rfl (v := x5 + 1) (lv' := [(0, .ref (bd 67)), (1, .int x1), (2, .int x2), (3, .int x3), (4, .int (x4 + 1)), (5, .int (x5 + 1))]) rfl [1, 2, 3, 4, 5, 0] rfl (by decide) dX8_sieve_89 ?_
          refine r_goto G (tgt := 45) dX8_sieve_92 (by decide) ?_
          exact ih _ _ _ h
set_option maxHeartbeats 4000000 in
set_option maxRecDepth 100000 in
theorem qX8_sieve {E : evT} {l : Launch} {D : va_G} {bd : Nat → Nat} {κ : Nat → ClassId} (hE : EvOk E) (p0 : Int32) (p1 : Int32) (p2 : Int32) (s : mS) {o : (Int32 × mS)} (h : fX8_sieve p0 p1 p2 s = some o) : Ci l yX8_sieve wsX8_sieve rmX8_sieve (mW bd κ) E D (tyA κ) .int [.ref (bd 67), .int p0, .int p1, .int p2] s (fun r s2 => o = (r, s2)) := by
  rw [fX8_sieve] at h
  refine s_i (cc := cX8_sieve) (nL := 7) (own := RX8) hE (mW_WA bd κ) (plainFor_of_name (by decide)) rfl rfl (Nat.le_of_ble_eq_true rfl) (fun Γ G hret => ?_)
  refine r_aload_n G 0 rfl rfl dX8_sieve_0 ?_
  refine r_iload_n G 1 rfl rfl dX8_sieve_1 ?_
  refine r_callSi G [.int p0] (qX8_isSet hE p0 _) gX8_sieve_X8_isSet rfl hdX8_isSet ⟨Nat.le_of_ble_eq_true rfl, Nat.le_of_ble_eq_true rfl⟩ (Nat.le_of_ble_eq_true rfl) rfl ⟨Nat.le_of_ble_eq_true rfl, Nat.le_of_ble_eq_true rfl⟩ rfl rfl dX8_sieve_2 (fun r1 s1 hp hn1 => ?_)
  obtain ⟨rfl, hs⟩ := hp
  have hs := hs.symm
  subst hs
  refine r_iload_n G 2 rfl rfl dX8_sieve_5 ?_
  refine r_iconst G (v := 1) (by decide) dX8_sieve_6 ?_
  refine r_bipush G (v := 100) (by decide) dX8_sieve_7 ?_
  refine r_callSi G [.int p1, .int 1, .int 100] (qX8_in hE p1 (1 : Int32) (100 : Int32) _) gX8_sieve_X8_in rfl hdX8_in ⟨Nat.le_of_ble_eq_true rfl, Nat.le_of_ble_eq_true rfl⟩ (Nat.le_of_ble_eq_true rfl) rfl ⟨Nat.le_of_ble_eq_true rfl, Nat.le_of_ble_eq_true rfl⟩ rfl rfl dX8_sieve_9 (fun r2 s2 hp hn2 => ?_)
  obtain ⟨rfl, hs⟩ := hp
  have hs := hs.symm
  subst hs
  refine r_if_eq G (tgt := 29) dX8_sieve_12 (by decide) (fun c => ?_) (fun c => ?_)
  · rw [if_pos c] at h
    refine r_iconst G (v := 0) (by decide) dX8_sieve_29 ?_
    obtain ⟨o3, e3, h⟩ := ob h
    refine r_callVi G [.int (fX8_isSet p0 s), .int 0] (qX8_passes hE (fX8_isSet p0 s) (0 : Int32) _ e3) ⟨67, 8, _, _, rfl, (mw_MO bd κ _), rfl⟩ gX8_sieve_X8_passes rfl hdX8_passes ⟨Nat.le_of_ble_eq_true rfl, Nat.le_of_ble_eq_true rfl⟩ (Nat.le_of_ble_eq_true rfl) rfl ⟨Nat.le_of_ble_eq_true rfl, Nat.le_of_ble_eq_true rfl⟩ rfl rfl dX8_sieve_30 (fun r3 s3 hp hn3 => ?_)
    subst hp
    try dsimp only at h
    refine r_if_ne G (tgt := 38) dX8_sieve_33 (by decide) (fun c => ?_) (fun c => ?_)
    · rw [if_neg c] at h
      refine r_iconst G (v := 0) (by decide) dX8_sieve_38 ?_
      refine r_istore G (lv' := [(0, .ref (bd 67)), (1, .int p0), (2, .int p1), (3, .int p2), (4, .int 0)]) [1, 2, 3, 4, 0] rfl (by decide) dX8_sieve_39 ?_
      refine r_bipush G (v := (-50)) (by decide) dX8_sieve_41 ?_
      refine r_istore G (lv' := [(0, .ref (bd 67)), (1, .int p0), (2, .int p1), (3, .int p2), (4, .int 0), (5, .int (-50))]) [1, 2, 3, 4, 5, 0] rfl (by decide) dX8_sieve_43 ?_
      refine wX8_sieve_L45 hE G _ _ _ hret 1100 _ _ _ h
    · rw [if_pos c] at h
      refine r_iconst G (v := 0) (by decide) dX8_sieve_36 ?_
      exact hret _ _ _ _ _ _ dX8_sieve_37 (Option.some.inj h).symm rfl (Nat.le_of_ble_eq_true rfl) (Nat.le_of_ble_eq_true rfl)
  · rw [if_neg c] at h
    refine r_iload_n G 3 rfl rfl dX8_sieve_15 ?_
    refine r_iconst G (v := 0) (by decide) dX8_sieve_16 ?_
    refine r_bipush G (v := 99) (by decide) dX8_sieve_17 ?_
    refine r_callSi G [.int p2, .int 0, .int 99] (qX8_in hE p2 (0 : Int32) (99 : Int32) _) gX8_sieve_X8_in rfl hdX8_in ⟨Nat.le_of_ble_eq_true rfl, Nat.le_of_ble_eq_true rfl⟩ (Nat.le_of_ble_eq_true rfl) rfl ⟨Nat.le_of_ble_eq_true rfl, Nat.le_of_ble_eq_true rfl⟩ rfl rfl dX8_sieve_19 (fun r7 s7 hp hn7 => ?_)
    obtain ⟨rfl, hs⟩ := hp
    have hs := hs.symm
    subst hs
    refine r_if_eq G (tgt := 29) dX8_sieve_22 (by decide) (fun c => ?_) (fun c => ?_)
    · rw [if_pos c] at h
      refine r_iconst G (v := 0) (by decide) dX8_sieve_29 ?_
      obtain ⟨o8, e8, h⟩ := ob h
      refine r_callVi G [.int (fX8_isSet p0 s), .int 0] (qX8_passes hE (fX8_isSet p0 s) (0 : Int32) _ e8) ⟨67, 8, _, _, rfl, (mw_MO bd κ _), rfl⟩ gX8_sieve_X8_passes rfl hdX8_passes ⟨Nat.le_of_ble_eq_true rfl, Nat.le_of_ble_eq_true rfl⟩ (Nat.le_of_ble_eq_true rfl) rfl ⟨Nat.le_of_ble_eq_true rfl, Nat.le_of_ble_eq_true rfl⟩ rfl rfl dX8_sieve_30 (fun r8 s8 hp hn8 => ?_)
      subst hp
      try dsimp only at h
      refine r_if_ne G (tgt := 38) dX8_sieve_33 (by decide) (fun c => ?_) (fun c => ?_)
      · rw [if_neg c] at h
        refine r_iconst G (v := 0) (by decide) dX8_sieve_38 ?_
        refine r_istore G (lv' := [(0, .ref (bd 67)), (1, .int p0), (2, .int p1), (3, .int p2), (4, .int 0)]) [1, 2, 3, 4, 0] rfl (by decide) dX8_sieve_39 ?_
        refine r_bipush G (v := (-50)) (by decide) dX8_sieve_41 ?_
        refine r_istore G (lv' := [(0, .ref (bd 67)), (1, .int p0), (2, .int p1), (3, .int p2), (4, .int 0), (5, .int (-50))]) [1, 2, 3, 4, 5, 0] rfl (by decide) dX8_sieve_43 ?_
        refine wX8_sieve_L45 hE G _ _ _ hret 1100 _ _ _ h
      · rw [if_pos c] at h
        refine r_iconst G (v := 0) (by decide) dX8_sieve_36 ?_
        exact hret _ _ _ _ _ _ dX8_sieve_37 (Option.some.inj h).symm rfl (Nat.le_of_ble_eq_true rfl) (Nat.le_of_ble_eq_true rfl)
    · rw [if_neg c] at h
      refine r_iconst G (v := 1) (by decide) dX8_sieve_25 ?_
      refine r_goto G (tgt := 30) dX8_sieve_26 (by decide) ?_
      obtain ⟨o9, e9, h⟩ := ob h
      refine r_callVi G [.int (fX8_isSet p0 s), .int 1] (qX8_passes hE (fX8_isSet p0 s) (1 : Int32) _ e9) ⟨67, 8, _, _, rfl, (mw_MO bd κ _), rfl⟩ gX8_sieve_X8_passes rfl hdX8_passes ⟨Nat.le_of_ble_eq_true rfl, Nat.le_of_ble_eq_true rfl⟩ (Nat.le_of_ble_eq_true rfl) rfl ⟨Nat.le_of_ble_eq_true rfl, Nat.le_of_ble_eq_true rfl⟩ rfl rfl dX8_sieve_30 (fun r9 s9 hp hn9 => ?_)
      subst hp
      try dsimp only at h
      refine r_if_ne G (tgt := 38) dX8_sieve_33 (by decide) (fun c => ?_) (fun c => ?_)
      · rw [if_neg c] at h
        refine r_iconst G (v := 0) (by decide) dX8_sieve_38 ?_
        refine r_istore G (lv' := [(0, .ref (bd 67)), (1, .int p0), (2, .int p1), (3, .int p2), (4, .int 0)]) [1, 2, 3, 4, 0] rfl (by decide) dX8_sieve_39 ?_
        refine r_bipush G (v := (-50)) (by decide) dX8_sieve_41 ?_
        refine r_istore G (lv' := [(0, .ref (bd 67)), (1, .int p0), (2, .int p1), (3, .int p2), (4, .int 0), (5, .int (-50))]) [1, 2, 3, 4, 5, 0] rfl (by decide) dX8_sieve_43 ?_
        refine wX8_sieve_L45 hE G _ _ _ hret 1100 _ _ _ h
      · rw [if_pos c] at h
        refine r_iconst G (v := 0) (by decide) dX8_sieve_36 ?_
        exact hret _ _ _ _ _ _ dX8_sieve_37 (Option.some.inj h).symm rfl (Nat.le_of_ble_eq_true rfl) (Nat.le_of_ble_eq_true rfl)
abbrev rmX8_isWithin : Room := { frames := 2, cells := 0, slots := 0, locals := 42 }
set_option maxRecDepth 20000 in
theorem kX8_isWithin_X8 : ∀ w ∈ u_ws RX8 TX8 19, w ∈ wsX8_isWithin := by decide +kernel
set_option maxRecDepth 20000 in
theorem mX8_isWithin_f27 : Cond.fieldLink RX8 27 "SetCouncilModel" "sets" "[[Z" ∈ wsX8_isWithin := by decide +kernel
theorem hdX8_lies : yX8_lies.cls ≠ "java/lang/invoke/MethodHandle" ∧ yX8_lies.cls ≠ "java/lang/invoke/VarHandle" ∧ (parseMethodDescriptor yX8_lies.desc).map (fun d => d.parameters.length) = some 2 := by decide +kernel
set_option maxHeartbeats 4000000 in
set_option maxRecDepth 100000 in
theorem qX8_isWithin {E : evT} {l : Launch} {D : va_G} {bd : Nat → Nat} {κ : Nat → ClassId} (hE : EvOk E) (p0 : Int32) (p1 : Int32) (s : mS) {o : (Int32 × mS)} (h : fX8_isWithin p0 p1 s = some o) : Ci l yX8_isWithin wsX8_isWithin rmX8_isWithin (mW bd κ) E D (tyA κ) .boolean [.ref (bd 67), .int p0, .int p1] s (fun r s2 => o = (r, s2)) := by
  rw [fX8_isWithin] at h
  refine s_i (cc := cX8_isWithin) (nL := 3) (own := RX8) hE (mW_WA bd κ) (plainFor_of_name (by decide)) rfl rfl (Nat.le_of_ble_eq_true rfl) (fun Γ G hret => ?_)
  refine r_aload_n G 0 rfl rfl dX8_isWithin_0 ?_
  refine r_iload_n G 1 rfl rfl dX8_isWithin_1 ?_
  refine r_callSi G [.int p0] (qX8_isSet hE p0 _) gX8_isWithin_X8_isSet rfl hdX8_isSet ⟨Nat.le_of_ble_eq_true rfl, Nat.le_of_ble_eq_true rfl⟩ (Nat.le_of_ble_eq_true rfl) rfl ⟨Nat.le_of_ble_eq_true rfl, Nat.le_of_ble_eq_true rfl⟩ rfl rfl dX8_isWithin_2 (fun r1 s1 hp hn1 => ?_)
  obtain ⟨rfl, hs⟩ := hp
  have hs := hs.symm
  subst hs
  refine r_if_eq G (tgt := 19) dX8_isWithin_5 (by decide) (fun c => ?_) (fun c => ?_)
  · rw [if_pos c] at h
    refine r_iconst G (v := 0) (by decide) dX8_isWithin_19 ?_
    refine r_iconst G (v := 1) (by decide) dX8_isWithin_20 ?_
    obtain ⟨o2, e2, h⟩ := ob h
    refine r_callVi G [.int 0, .int 1] (qX8_passes hE (0 : Int32) (1 : Int32) _ e2) ⟨67, 8, _, _, rfl, (mw_MO bd κ _), rfl⟩ gX8_isWithin_X8_passes rfl hdX8_passes ⟨Nat.le_of_ble_eq_true rfl, Nat.le_of_ble_eq_true rfl⟩ (Nat.le_of_ble_eq_true rfl) rfl ⟨Nat.le_of_ble_eq_true rfl, Nat.le_of_ble_eq_true rfl⟩ rfl rfl dX8_isWithin_21 (fun r2 s2 hp hn2 => ?_)
    subst hp
    try dsimp only at h
    refine r_if_eq G (tgt := 49) dX8_isWithin_24 (by decide) (fun c => ?_) (fun c => ?_)
    · rw [if_pos c] at h
      refine r_iconst G (v := 0) (by decide) dX8_isWithin_49 ?_
      exact hret _ _ _ _ _ _ dX8_isWithin_50 (Option.some.inj h).symm rfl (Nat.le_of_ble_eq_true rfl) (Nat.le_of_ble_eq_true rfl)
    · rw [if_neg c] at h
      refine r_aload_n G 0 rfl rfl dX8_isWithin_27 ?_
      refine r_get G (C := RX8) (T := TX8) (N := 19) kX8_isWithin_X8 67 (mw_MO bd κ _) rfl 1 (by decide) mX8_isWithin_f27 rfl rfl dX8_isWithin_28 ?_
      refine r_iload_n G 1 rfl rfl dX8_isWithin_31 ?_
      obtain ⟨g3, h⟩ := og h
      refine r_aldA G 68 5 (mw_SETSG bd κ _) rfl (vin_in g3) rfl dX8_isWithin_32 ?_
      refine r_aload_n G 0 rfl rfl dX8_isWithin_33 ?_
      refine r_get G (C := RX8) (T := TX8) (N := 19) kX8_isWithin_X8 67 (mw_MO bd κ _) rfl 1 (by decide) mX8_isWithin_f27 rfl rfl dX8_isWithin_34 ?_
      refine r_iload_n G 2 rfl rfl dX8_isWithin_37 ?_
      obtain ⟨g4, h⟩ := og h
      refine r_aldA G 68 5 (mw_SETSG bd κ _) rfl (vin_in g4) rfl dX8_isWithin_38 ?_
      obtain ⟨o5, e5, h⟩ := ob h
      refine r_callSi G [.ref (bd p0.toNatClampNeg), .ref (bd p1.toNatClampNeg)] (qX8_lies hE p0.toNatClampNeg (by have := vin_lt g3; omega) p1.toNatClampNeg (by have := vin_lt g4; omega) _ e5) gX8_isWithin_X8_lies rfl hdX8_lies ⟨Nat.le_of_ble_eq_true rfl, Nat.le_of_ble_eq_true rfl⟩ (Nat.le_of_ble_eq_true rfl) rfl ⟨Nat.le_of_ble_eq_true rfl, Nat.le_of_ble_eq_true rfl⟩ rfl rfl dX8_isWithin_39 (fun r5 s5 hp hn5 => ?_)
      subst hp
      try dsimp only at h
      refine r_if_eq G (tgt := 49) dX8_isWithin_42 (by decide) (fun c => ?_) (fun c => ?_)
      · rw [if_pos c] at h
        refine r_iconst G (v := 0) (by decide) dX8_isWithin_49 ?_
        exact hret _ _ _ _ _ _ dX8_isWithin_50 (Option.some.inj h).symm rfl (Nat.le_of_ble_eq_true rfl) (Nat.le_of_ble_eq_true rfl)
      · rw [if_neg c] at h
        refine r_iconst G (v := 1) (by decide) dX8_isWithin_45 ?_
        refine r_goto G (tgt := 50) dX8_isWithin_46 (by decide) ?_
        exact hret _ _ _ _ _ _ dX8_isWithin_50 (Option.some.inj h).symm rfl (Nat.le_of_ble_eq_true rfl) (Nat.le_of_ble_eq_true rfl)
  · rw [if_neg c] at h
    refine r_iload_n G 2 rfl rfl dX8_isWithin_8 ?_
    refine r_callSi G [.int p1] (qX8_isSet hE p1 _) gX8_isWithin_X8_isSet rfl hdX8_isSet ⟨Nat.le_of_ble_eq_true rfl, Nat.le_of_ble_eq_true rfl⟩ (Nat.le_of_ble_eq_true rfl) rfl ⟨Nat.le_of_ble_eq_true rfl, Nat.le_of_ble_eq_true rfl⟩ rfl rfl dX8_isWithin_9 (fun r6 s6 hp hn6 => ?_)
    obtain ⟨rfl, hs⟩ := hp
    have hs := hs.symm
    subst hs
    refine r_if_eq G (tgt := 19) dX8_isWithin_12 (by decide) (fun c => ?_) (fun c => ?_)
    · rw [if_pos c] at h
      refine r_iconst G (v := 0) (by decide) dX8_isWithin_19 ?_
      refine r_iconst G (v := 1) (by decide) dX8_isWithin_20 ?_
      obtain ⟨o7, e7, h⟩ := ob h
      refine r_callVi G [.int 0, .int 1] (qX8_passes hE (0 : Int32) (1 : Int32) _ e7) ⟨67, 8, _, _, rfl, (mw_MO bd κ _), rfl⟩ gX8_isWithin_X8_passes rfl hdX8_passes ⟨Nat.le_of_ble_eq_true rfl, Nat.le_of_ble_eq_true rfl⟩ (Nat.le_of_ble_eq_true rfl) rfl ⟨Nat.le_of_ble_eq_true rfl, Nat.le_of_ble_eq_true rfl⟩ rfl rfl dX8_isWithin_21 (fun r7 s7 hp hn7 => ?_)
      subst hp
      try dsimp only at h
      refine r_if_eq G (tgt := 49) dX8_isWithin_24 (by decide) (fun c => ?_) (fun c => ?_)
      · rw [if_pos c] at h
        refine r_iconst G (v := 0) (by decide) dX8_isWithin_49 ?_
        exact hret _ _ _ _ _ _ dX8_isWithin_50 (Option.some.inj h).symm rfl (Nat.le_of_ble_eq_true rfl) (Nat.le_of_ble_eq_true rfl)
      · rw [if_neg c] at h
        refine r_aload_n G 0 rfl rfl dX8_isWithin_27 ?_
        refine r_get G (C := RX8) (T := TX8) (N := 19) kX8_isWithin_X8 67 (mw_MO bd κ _) rfl 1 (by decide) mX8_isWithin_f27 rfl rfl dX8_isWithin_28 ?_
        refine r_iload_n G 1 rfl rfl dX8_isWithin_31 ?_
        obtain ⟨g8, h⟩ := og h
        refine r_aldA G 68 5 (mw_SETSG bd κ _) rfl (vin_in g8) rfl dX8_isWithin_32 ?_
        refine r_aload_n G 0 rfl rfl dX8_isWithin_33 ?_
        refine r_get G (C := RX8) (T := TX8) (N := 19) kX8_isWithin_X8 67 (mw_MO bd κ _) rfl 1 (by decide) mX8_isWithin_f27 rfl rfl dX8_isWithin_34 ?_
        refine r_iload_n G 2 rfl rfl dX8_isWithin_37 ?_
        obtain ⟨g9, h⟩ := og h
        refine r_aldA G 68 5 (mw_SETSG bd κ _) rfl (vin_in g9) rfl dX8_isWithin_38 ?_
        obtain ⟨o10, e10, h⟩ := ob h
        refine r_callSi G [.ref (bd p0.toNatClampNeg), .ref (bd p1.toNatClampNeg)] (qX8_lies hE p0.toNatClampNeg (by have := vin_lt g8; omega) p1.toNatClampNeg (by have := vin_lt g9; omega) _ e10) gX8_isWithin_X8_lies rfl hdX8_lies ⟨Nat.le_of_ble_eq_true rfl, Nat.le_of_ble_eq_true rfl⟩ (Nat.le_of_ble_eq_true rfl) rfl ⟨Nat.le_of_ble_eq_true rfl, Nat.le_of_ble_eq_true rfl⟩ rfl rfl dX8_isWithin_39 (fun r10 s10 hp hn10 => ?_)
        subst hp
        try dsimp only at h
        refine r_if_eq G (tgt := 49) dX8_isWithin_42 (by decide) (fun c => ?_) (fun c => ?_)
        · rw [if_pos c] at h
          refine r_iconst G (v := 0) (by decide) dX8_isWithin_49 ?_
          exact hret _ _ _ _ _ _ dX8_isWithin_50 (Option.some.inj h).symm rfl (Nat.le_of_ble_eq_true rfl) (Nat.le_of_ble_eq_true rfl)
        · rw [if_neg c] at h
          refine r_iconst G (v := 1) (by decide) dX8_isWithin_45 ?_
          refine r_goto G (tgt := 50) dX8_isWithin_46 (by decide) ?_
          exact hret _ _ _ _ _ _ dX8_isWithin_50 (Option.some.inj h).symm rfl (Nat.le_of_ble_eq_true rfl) (Nat.le_of_ble_eq_true rfl)
    · rw [if_neg c] at h
      refine r_iconst G (v := 1) (by decide) dX8_isWithin_15 ?_
      refine r_goto G (tgt := 20) dX8_isWithin_16 (by decide) ?_
      refine r_iconst G (v := 1) (by decide) dX8_isWithin_20 ?_
      obtain ⟨o11, e11, h⟩ := ob h
      refine r_callVi G [.int 1, .int 1] (qX8_passes hE (1 : Int32) (1 : Int32) _ e11) ⟨67, 8, _, _, rfl, (mw_MO bd κ _), rfl⟩ gX8_isWithin_X8_passes rfl hdX8_passes ⟨Nat.le_of_ble_eq_true rfl, Nat.le_of_ble_eq_true rfl⟩ (Nat.le_of_ble_eq_true rfl) rfl ⟨Nat.le_of_ble_eq_true rfl, Nat.le_of_ble_eq_true rfl⟩ rfl rfl dX8_isWithin_21 (fun r11 s11 hp hn11 => ?_)
      subst hp
      try dsimp only at h
      refine r_if_eq G (tgt := 49) dX8_isWithin_24 (by decide) (fun c => ?_) (fun c => ?_)
      · rw [if_pos c] at h
        refine r_iconst G (v := 0) (by decide) dX8_isWithin_49 ?_
        exact hret _ _ _ _ _ _ dX8_isWithin_50 (Option.some.inj h).symm rfl (Nat.le_of_ble_eq_true rfl) (Nat.le_of_ble_eq_true rfl)
      · rw [if_neg c] at h
        refine r_aload_n G 0 rfl rfl dX8_isWithin_27 ?_
        refine r_get G (C := RX8) (T := TX8) (N := 19) kX8_isWithin_X8 67 (mw_MO bd κ _) rfl 1 (by decide) mX8_isWithin_f27 rfl rfl dX8_isWithin_28 ?_
        refine r_iload_n G 1 rfl rfl dX8_isWithin_31 ?_
        obtain ⟨g12, h⟩ := og h
        refine r_aldA G 68 5 (mw_SETSG bd κ _) rfl (vin_in g12) rfl dX8_isWithin_32 ?_
        refine r_aload_n G 0 rfl rfl dX8_isWithin_33 ?_
        refine r_get G (C := RX8) (T := TX8) (N := 19) kX8_isWithin_X8 67 (mw_MO bd κ _) rfl 1 (by decide) mX8_isWithin_f27 rfl rfl dX8_isWithin_34 ?_
        refine r_iload_n G 2 rfl rfl dX8_isWithin_37 ?_
        obtain ⟨g13, h⟩ := og h
        refine r_aldA G 68 5 (mw_SETSG bd κ _) rfl (vin_in g13) rfl dX8_isWithin_38 ?_
        obtain ⟨o14, e14, h⟩ := ob h
        refine r_callSi G [.ref (bd p0.toNatClampNeg), .ref (bd p1.toNatClampNeg)] (qX8_lies hE p0.toNatClampNeg (by have := vin_lt g12; omega) p1.toNatClampNeg (by have := vin_lt g13; omega) _ e14) gX8_isWithin_X8_lies rfl hdX8_lies ⟨Nat.le_of_ble_eq_true rfl, Nat.le_of_ble_eq_true rfl⟩ (Nat.le_of_ble_eq_true rfl) rfl ⟨Nat.le_of_ble_eq_true rfl, Nat.le_of_ble_eq_true rfl⟩ rfl rfl dX8_isWithin_39 (fun r14 s14 hp hn14 => ?_)
        subst hp
        try dsimp only at h
        refine r_if_eq G (tgt := 49) dX8_isWithin_42 (by decide) (fun c => ?_) (fun c => ?_)
        · rw [if_pos c] at h
          refine r_iconst G (v := 0) (by decide) dX8_isWithin_49 ?_
          exact hret _ _ _ _ _ _ dX8_isWithin_50 (Option.some.inj h).symm rfl (Nat.le_of_ble_eq_true rfl) (Nat.le_of_ble_eq_true rfl)
        · rw [if_neg c] at h
          refine r_iconst G (v := 1) (by decide) dX8_isWithin_45 ?_
          refine r_goto G (tgt := 50) dX8_isWithin_46 (by decide) ?_
          exact hret _ _ _ _ _ _ dX8_isWithin_50 (Option.some.inj h).symm rfl (Nat.le_of_ble_eq_true rfl) (Nat.le_of_ble_eq_true rfl)
abbrev rmX8_isApart : Room := { frames := 2, cells := 0, slots := 0, locals := 42 }
set_option maxRecDepth 20000 in
theorem kX8_isApart_X8 : ∀ w ∈ u_ws RX8 TX8 19, w ∈ wsX8_isApart := by decide +kernel
set_option maxRecDepth 20000 in
theorem mX8_isApart_f27 : Cond.fieldLink RX8 27 "SetCouncilModel" "sets" "[[Z" ∈ wsX8_isApart := by decide +kernel
set_option maxRecDepth 20000 in
theorem mX8_isApart_f30 : Cond.fieldLink RX8 30 "SetCouncilModel" "before" "[Z" ∈ wsX8_isApart := by decide +kernel
set_option maxHeartbeats 4000000 in
set_option maxRecDepth 100000 in
theorem qX8_isApart {E : evT} {l : Launch} {D : va_G} {bd : Nat → Nat} {κ : Nat → ClassId} (hE : EvOk E) (p0 : Int32) (p1 : Int32) (s : mS) {o : (Int32 × mS)} (h : fX8_isApart p0 p1 s = some o) : Ci l yX8_isApart wsX8_isApart rmX8_isApart (mW bd κ) E D (tyA κ) .boolean [.ref (bd 67), .int p0, .int p1] s (fun r s2 => o = (r, s2)) := by
  rw [fX8_isApart] at h
  refine s_i (cc := cX8_isApart) (nL := 3) (own := RX8) hE (mW_WA bd κ) (plainFor_of_name (by decide)) rfl rfl (Nat.le_of_ble_eq_true rfl) (fun Γ G hret => ?_)
  refine r_aload_n G 0 rfl rfl dX8_isApart_0 ?_
  refine r_iload_n G 1 rfl rfl dX8_isApart_1 ?_
  refine r_callSi G [.int p0] (qX8_isSet hE p0 _) gX8_isApart_X8_isSet rfl hdX8_isSet ⟨Nat.le_of_ble_eq_true rfl, Nat.le_of_ble_eq_true rfl⟩ (Nat.le_of_ble_eq_true rfl) rfl ⟨Nat.le_of_ble_eq_true rfl, Nat.le_of_ble_eq_true rfl⟩ rfl rfl dX8_isApart_2 (fun r1 s1 hp hn1 => ?_)
  obtain ⟨rfl, hs⟩ := hp
  have hs := hs.symm
  subst hs
  refine r_if_eq G (tgt := 19) dX8_isApart_5 (by decide) (fun c => ?_) (fun c => ?_)
  · rw [if_pos c] at h
    refine r_iconst G (v := 0) (by decide) dX8_isApart_19 ?_
    refine r_iconst G (v := 1) (by decide) dX8_isApart_20 ?_
    obtain ⟨o2, e2, h⟩ := ob h
    refine r_callVi G [.int 0, .int 1] (qX8_passes hE (0 : Int32) (1 : Int32) _ e2) ⟨67, 8, _, _, rfl, (mw_MO bd κ _), rfl⟩ gX8_isApart_X8_passes rfl hdX8_passes ⟨Nat.le_of_ble_eq_true rfl, Nat.le_of_ble_eq_true rfl⟩ (Nat.le_of_ble_eq_true rfl) rfl ⟨Nat.le_of_ble_eq_true rfl, Nat.le_of_ble_eq_true rfl⟩ rfl rfl dX8_isApart_21 (fun r2 s2 hp hn2 => ?_)
    subst hp
    try dsimp only at h
    refine r_if_ne G (tgt := 29) dX8_isApart_24 (by decide) (fun c => ?_) (fun c => ?_)
    · rw [if_neg c] at h
      refine r_aload_n G 0 rfl rfl dX8_isApart_29 ?_
      refine r_get G (C := RX8) (T := TX8) (N := 19) kX8_isApart_X8 67 (mw_MO bd κ _) rfl 1 (by decide) mX8_isApart_f27 rfl rfl dX8_isApart_30 ?_
      refine r_iload_n G 1 rfl rfl dX8_isApart_33 ?_
      obtain ⟨g3, h⟩ := og h
      refine r_aldA G 68 5 (mw_SETSG bd κ _) rfl (vin_in g3) rfl dX8_isApart_34 ?_
      refine r_aload_n G 0 rfl rfl dX8_isApart_35 ?_
      refine r_get G (C := RX8) (T := TX8) (N := 19) kX8_isApart_X8 67 (mw_MO bd κ _) rfl 1 (by decide) mX8_isApart_f27 rfl rfl dX8_isApart_36 ?_
      refine r_iload_n G 2 rfl rfl dX8_isApart_39 ?_
      obtain ⟨g4, h⟩ := og h
      refine r_aldA G 68 5 (mw_SETSG bd κ _) rfl (vin_in g4) rfl dX8_isApart_40 ?_
      refine r_iconst G (v := 1) (by decide) dX8_isApart_41 ?_
      refine r_aload_n G 0 rfl rfl dX8_isApart_42 ?_
      refine r_get G (C := RX8) (T := TX8) (N := 19) kX8_isApart_X8 67 (mw_MO bd κ _) rfl 2 (by decide) mX8_isApart_f30 rfl rfl dX8_isApart_43 ?_
      obtain ⟨o5, e5, h⟩ := ob h
      refine r_callSv G [.ref (bd p0.toNatClampNeg), .ref (bd p1.toNatClampNeg), .int 1, .ref (bd 8)] (qX8_joins hE p0.toNatClampNeg (by have := vin_lt g3; omega) p1.toNatClampNeg (by have := vin_lt g4; omega) (1 : Int32) 8 (by decide) _ e5) gX8_isApart_X8_joins rfl hdX8_joins ⟨Nat.le_of_ble_eq_true rfl, Nat.le_of_ble_eq_true rfl⟩ (Nat.le_of_ble_eq_true rfl) rfl ⟨Nat.le_of_ble_eq_true rfl, Nat.le_of_ble_eq_true rfl⟩ rfl rfl dX8_isApart_46 (fun s5 hp => ?_)
      have hp := hp.symm
      subst hp
      try dsimp only at h
      refine r_aload_n G 0 rfl rfl dX8_isApart_49 ?_
      refine r_get G (C := RX8) (T := TX8) (N := 19) kX8_isApart_X8 67 (mw_MO bd κ _) rfl 2 (by decide) mX8_isApart_f30 rfl rfl dX8_isApart_50 ?_
      obtain ⟨o6, e6, h⟩ := ob h
      refine r_callSi G [.ref (bd 8)] (qX8_sizeOf hE 8 (by decide) _ e6) gX8_isApart_X8_sizeOf rfl hdX8_sizeOf ⟨Nat.le_of_ble_eq_true rfl, Nat.le_of_ble_eq_true rfl⟩ (Nat.le_of_ble_eq_true rfl) rfl ⟨Nat.le_of_ble_eq_true rfl, Nat.le_of_ble_eq_true rfl⟩ rfl rfl dX8_isApart_53 (fun r6 s6 hp hn6 => ?_)
      subst hp
      try dsimp only at h
      refine r_if_ne G (tgt := 63) dX8_isApart_56 (by decide) (fun c => ?_) (fun c => ?_)
      · rw [if_neg c] at h
        refine r_iconst G (v := 0) (by decide) dX8_isApart_63 ?_
        exact hret _ _ _ _ _ _ dX8_isApart_64 (Option.some.inj h).symm rfl (Nat.le_of_ble_eq_true rfl) (Nat.le_of_ble_eq_true rfl)
      · rw [if_pos c] at h
        refine r_iconst G (v := 1) (by decide) dX8_isApart_59 ?_
        refine r_goto G (tgt := 64) dX8_isApart_60 (by decide) ?_
        exact hret _ _ _ _ _ _ dX8_isApart_64 (Option.some.inj h).symm rfl (Nat.le_of_ble_eq_true rfl) (Nat.le_of_ble_eq_true rfl)
    · rw [if_pos c] at h
      refine r_iconst G (v := 0) (by decide) dX8_isApart_27 ?_
      exact hret _ _ _ _ _ _ dX8_isApart_28 (Option.some.inj h).symm rfl (Nat.le_of_ble_eq_true rfl) (Nat.le_of_ble_eq_true rfl)
  · rw [if_neg c] at h
    refine r_iload_n G 2 rfl rfl dX8_isApart_8 ?_
    refine r_callSi G [.int p1] (qX8_isSet hE p1 _) gX8_isApart_X8_isSet rfl hdX8_isSet ⟨Nat.le_of_ble_eq_true rfl, Nat.le_of_ble_eq_true rfl⟩ (Nat.le_of_ble_eq_true rfl) rfl ⟨Nat.le_of_ble_eq_true rfl, Nat.le_of_ble_eq_true rfl⟩ rfl rfl dX8_isApart_9 (fun r7 s7 hp hn7 => ?_)
    obtain ⟨rfl, hs⟩ := hp
    have hs := hs.symm
    subst hs
    refine r_if_eq G (tgt := 19) dX8_isApart_12 (by decide) (fun c => ?_) (fun c => ?_)
    · rw [if_pos c] at h
      refine r_iconst G (v := 0) (by decide) dX8_isApart_19 ?_
      refine r_iconst G (v := 1) (by decide) dX8_isApart_20 ?_
      obtain ⟨o8, e8, h⟩ := ob h
      refine r_callVi G [.int 0, .int 1] (qX8_passes hE (0 : Int32) (1 : Int32) _ e8) ⟨67, 8, _, _, rfl, (mw_MO bd κ _), rfl⟩ gX8_isApart_X8_passes rfl hdX8_passes ⟨Nat.le_of_ble_eq_true rfl, Nat.le_of_ble_eq_true rfl⟩ (Nat.le_of_ble_eq_true rfl) rfl ⟨Nat.le_of_ble_eq_true rfl, Nat.le_of_ble_eq_true rfl⟩ rfl rfl dX8_isApart_21 (fun r8 s8 hp hn8 => ?_)
      subst hp
      try dsimp only at h
      refine r_if_ne G (tgt := 29) dX8_isApart_24 (by decide) (fun c => ?_) (fun c => ?_)
      · rw [if_neg c] at h
        refine r_aload_n G 0 rfl rfl dX8_isApart_29 ?_
        refine r_get G (C := RX8) (T := TX8) (N := 19) kX8_isApart_X8 67 (mw_MO bd κ _) rfl 1 (by decide) mX8_isApart_f27 rfl rfl dX8_isApart_30 ?_
        refine r_iload_n G 1 rfl rfl dX8_isApart_33 ?_
        obtain ⟨g9, h⟩ := og h
        refine r_aldA G 68 5 (mw_SETSG bd κ _) rfl (vin_in g9) rfl dX8_isApart_34 ?_
        refine r_aload_n G 0 rfl rfl dX8_isApart_35 ?_
        refine r_get G (C := RX8) (T := TX8) (N := 19) kX8_isApart_X8 67 (mw_MO bd κ _) rfl 1 (by decide) mX8_isApart_f27 rfl rfl dX8_isApart_36 ?_
        refine r_iload_n G 2 rfl rfl dX8_isApart_39 ?_
        obtain ⟨g10, h⟩ := og h
        refine r_aldA G 68 5 (mw_SETSG bd κ _) rfl (vin_in g10) rfl dX8_isApart_40 ?_
        refine r_iconst G (v := 1) (by decide) dX8_isApart_41 ?_
        refine r_aload_n G 0 rfl rfl dX8_isApart_42 ?_
        refine r_get G (C := RX8) (T := TX8) (N := 19) kX8_isApart_X8 67 (mw_MO bd κ _) rfl 2 (by decide) mX8_isApart_f30 rfl rfl dX8_isApart_43 ?_
        obtain ⟨o11, e11, h⟩ := ob h
        refine r_callSv G [.ref (bd p0.toNatClampNeg), .ref (bd p1.toNatClampNeg), .int 1, .ref (bd 8)] (qX8_joins hE p0.toNatClampNeg (by have := vin_lt g9; omega) p1.toNatClampNeg (by have := vin_lt g10; omega) (1 : Int32) 8 (by decide) _ e11) gX8_isApart_X8_joins rfl hdX8_joins ⟨Nat.le_of_ble_eq_true rfl, Nat.le_of_ble_eq_true rfl⟩ (Nat.le_of_ble_eq_true rfl) rfl ⟨Nat.le_of_ble_eq_true rfl, Nat.le_of_ble_eq_true rfl⟩ rfl rfl dX8_isApart_46 (fun s11 hp => ?_)
        have hp := hp.symm
        subst hp
        try dsimp only at h
        refine r_aload_n G 0 rfl rfl dX8_isApart_49 ?_
        refine r_get G (C := RX8) (T := TX8) (N := 19) kX8_isApart_X8 67 (mw_MO bd κ _) rfl 2 (by decide) mX8_isApart_f30 rfl rfl dX8_isApart_50 ?_
        obtain ⟨o12, e12, h⟩ := ob h
        refine r_callSi G [.ref (bd 8)] (qX8_sizeOf hE 8 (by decide) _ e12) gX8_isApart_X8_sizeOf rfl hdX8_sizeOf ⟨Nat.le_of_ble_eq_true rfl, Nat.le_of_ble_eq_true rfl⟩ (Nat.le_of_ble_eq_true rfl) rfl ⟨Nat.le_of_ble_eq_true rfl, Nat.le_of_ble_eq_true rfl⟩ rfl rfl dX8_isApart_53 (fun r12 s12 hp hn12 => ?_)
        subst hp
        try dsimp only at h
        refine r_if_ne G (tgt := 63) dX8_isApart_56 (by decide) (fun c => ?_) (fun c => ?_)
        · rw [if_neg c] at h
          refine r_iconst G (v := 0) (by decide) dX8_isApart_63 ?_
          exact hret _ _ _ _ _ _ dX8_isApart_64 (Option.some.inj h).symm rfl (Nat.le_of_ble_eq_true rfl) (Nat.le_of_ble_eq_true rfl)
        · rw [if_pos c] at h
          refine r_iconst G (v := 1) (by decide) dX8_isApart_59 ?_
          refine r_goto G (tgt := 64) dX8_isApart_60 (by decide) ?_
          exact hret _ _ _ _ _ _ dX8_isApart_64 (Option.some.inj h).symm rfl (Nat.le_of_ble_eq_true rfl) (Nat.le_of_ble_eq_true rfl)
      · rw [if_pos c] at h
        refine r_iconst G (v := 0) (by decide) dX8_isApart_27 ?_
        exact hret _ _ _ _ _ _ dX8_isApart_28 (Option.some.inj h).symm rfl (Nat.le_of_ble_eq_true rfl) (Nat.le_of_ble_eq_true rfl)
    · rw [if_neg c] at h
      refine r_iconst G (v := 1) (by decide) dX8_isApart_15 ?_
      refine r_goto G (tgt := 20) dX8_isApart_16 (by decide) ?_
      refine r_iconst G (v := 1) (by decide) dX8_isApart_20 ?_
      obtain ⟨o13, e13, h⟩ := ob h
      refine r_callVi G [.int 1, .int 1] (qX8_passes hE (1 : Int32) (1 : Int32) _ e13) ⟨67, 8, _, _, rfl, (mw_MO bd κ _), rfl⟩ gX8_isApart_X8_passes rfl hdX8_passes ⟨Nat.le_of_ble_eq_true rfl, Nat.le_of_ble_eq_true rfl⟩ (Nat.le_of_ble_eq_true rfl) rfl ⟨Nat.le_of_ble_eq_true rfl, Nat.le_of_ble_eq_true rfl⟩ rfl rfl dX8_isApart_21 (fun r13 s13 hp hn13 => ?_)
      subst hp
      try dsimp only at h
      refine r_if_ne G (tgt := 29) dX8_isApart_24 (by decide) (fun c => ?_) (fun c => ?_)
      · rw [if_neg c] at h
        refine r_aload_n G 0 rfl rfl dX8_isApart_29 ?_
        refine r_get G (C := RX8) (T := TX8) (N := 19) kX8_isApart_X8 67 (mw_MO bd κ _) rfl 1 (by decide) mX8_isApart_f27 rfl rfl dX8_isApart_30 ?_
        refine r_iload_n G 1 rfl rfl dX8_isApart_33 ?_
        obtain ⟨g14, h⟩ := og h
        refine r_aldA G 68 5 (mw_SETSG bd κ _) rfl (vin_in g14) rfl dX8_isApart_34 ?_
        refine r_aload_n G 0 rfl rfl dX8_isApart_35 ?_
        refine r_get G (C := RX8) (T := TX8) (N := 19) kX8_isApart_X8 67 (mw_MO bd κ _) rfl 1 (by decide) mX8_isApart_f27 rfl rfl dX8_isApart_36 ?_
        refine r_iload_n G 2 rfl rfl dX8_isApart_39 ?_
        obtain ⟨g15, h⟩ := og h
        refine r_aldA G 68 5 (mw_SETSG bd κ _) rfl (vin_in g15) rfl dX8_isApart_40 ?_
        refine r_iconst G (v := 1) (by decide) dX8_isApart_41 ?_
        refine r_aload_n G 0 rfl rfl dX8_isApart_42 ?_
        refine r_get G (C := RX8) (T := TX8) (N := 19) kX8_isApart_X8 67 (mw_MO bd κ _) rfl 2 (by decide) mX8_isApart_f30 rfl rfl dX8_isApart_43 ?_
        obtain ⟨o16, e16, h⟩ := ob h
        refine r_callSv G [.ref (bd p0.toNatClampNeg), .ref (bd p1.toNatClampNeg), .int 1, .ref (bd 8)] (qX8_joins hE p0.toNatClampNeg (by have := vin_lt g14; omega) p1.toNatClampNeg (by have := vin_lt g15; omega) (1 : Int32) 8 (by decide) _ e16) gX8_isApart_X8_joins rfl hdX8_joins ⟨Nat.le_of_ble_eq_true rfl, Nat.le_of_ble_eq_true rfl⟩ (Nat.le_of_ble_eq_true rfl) rfl ⟨Nat.le_of_ble_eq_true rfl, Nat.le_of_ble_eq_true rfl⟩ rfl rfl dX8_isApart_46 (fun s16 hp => ?_)
        have hp := hp.symm
        subst hp
        try dsimp only at h
        refine r_aload_n G 0 rfl rfl dX8_isApart_49 ?_
        refine r_get G (C := RX8) (T := TX8) (N := 19) kX8_isApart_X8 67 (mw_MO bd κ _) rfl 2 (by decide) mX8_isApart_f30 rfl rfl dX8_isApart_50 ?_
        obtain ⟨o17, e17, h⟩ := ob h
        refine r_callSi G [.ref (bd 8)] (qX8_sizeOf hE 8 (by decide) _ e17) gX8_isApart_X8_sizeOf rfl hdX8_sizeOf ⟨Nat.le_of_ble_eq_true rfl, Nat.le_of_ble_eq_true rfl⟩ (Nat.le_of_ble_eq_true rfl) rfl ⟨Nat.le_of_ble_eq_true rfl, Nat.le_of_ble_eq_true rfl⟩ rfl rfl dX8_isApart_53 (fun r17 s17 hp hn17 => ?_)
        subst hp
        try dsimp only at h
        refine r_if_ne G (tgt := 63) dX8_isApart_56 (by decide) (fun c => ?_) (fun c => ?_)
        · rw [if_neg c] at h
          refine r_iconst G (v := 0) (by decide) dX8_isApart_63 ?_
          exact hret _ _ _ _ _ _ dX8_isApart_64 (Option.some.inj h).symm rfl (Nat.le_of_ble_eq_true rfl) (Nat.le_of_ble_eq_true rfl)
        · rw [if_pos c] at h
          refine r_iconst G (v := 1) (by decide) dX8_isApart_59 ?_
          refine r_goto G (tgt := 64) dX8_isApart_60 (by decide) ?_
          exact hret _ _ _ _ _ _ dX8_isApart_64 (Option.some.inj h).symm rfl (Nat.le_of_ble_eq_true rfl) (Nat.le_of_ble_eq_true rfl)
      · rw [if_pos c] at h
        refine r_iconst G (v := 0) (by decide) dX8_isApart_27 ?_
        exact hret _ _ _ _ _ _ dX8_isApart_28 (Option.some.inj h).symm rfl (Nat.le_of_ble_eq_true rfl) (Nat.le_of_ble_eq_true rfl)
abbrev rmX8_isSame : Room := { frames := 2, cells := 0, slots := 0, locals := 43 }
set_option maxRecDepth 20000 in
theorem kX8_isSame_X8 : ∀ w ∈ u_ws RX8 TX8 19, w ∈ wsX8_isSame := by decide +kernel
set_option maxRecDepth 20000 in
theorem mX8_isSame_f27 : Cond.fieldLink RX8 27 "SetCouncilModel" "sets" "[[Z" ∈ wsX8_isSame := by decide +kernel
set_option maxHeartbeats 4000000 in
set_option maxRecDepth 100000 in
theorem qX8_isSame {E : evT} {l : Launch} {D : va_G} {bd : Nat → Nat} {κ : Nat → ClassId} (hE : EvOk E) (p0 : Int32) (p1 : Int32) (s : mS) {o : (Int32 × mS)} (h : fX8_isSame p0 p1 s = some o) : Ci l yX8_isSame wsX8_isSame rmX8_isSame (mW bd κ) E D (tyA κ) .boolean [.ref (bd 67), .int p0, .int p1] s (fun r s2 => o = (r, s2)) := by
  rw [fX8_isSame] at h
  refine s_i (cc := cX8_isSame) (nL := 3) (own := RX8) hE (mW_WA bd κ) (plainFor_of_name (by decide)) rfl rfl (Nat.le_of_ble_eq_true rfl) (fun Γ G hret => ?_)
  refine r_aload_n G 0 rfl rfl dX8_isSame_0 ?_
  refine r_iload_n G 1 rfl rfl dX8_isSame_1 ?_
  refine r_callSi G [.int p0] (qX8_isSet hE p0 _) gX8_isSame_X8_isSet rfl hdX8_isSet ⟨Nat.le_of_ble_eq_true rfl, Nat.le_of_ble_eq_true rfl⟩ (Nat.le_of_ble_eq_true rfl) rfl ⟨Nat.le_of_ble_eq_true rfl, Nat.le_of_ble_eq_true rfl⟩ rfl rfl dX8_isSame_2 (fun r1 s1 hp hn1 => ?_)
  obtain ⟨rfl, hs⟩ := hp
  have hs := hs.symm
  subst hs
  refine r_if_eq G (tgt := 19) dX8_isSame_5 (by decide) (fun c => ?_) (fun c => ?_)
  · rw [if_pos c] at h
    refine r_iconst G (v := 0) (by decide) dX8_isSame_19 ?_
    refine r_iconst G (v := 1) (by decide) dX8_isSame_20 ?_
    obtain ⟨o2, e2, h⟩ := ob h
    refine r_callVi G [.int 0, .int 1] (qX8_passes hE (0 : Int32) (1 : Int32) _ e2) ⟨67, 8, _, _, rfl, (mw_MO bd κ _), rfl⟩ gX8_isSame_X8_passes rfl hdX8_passes ⟨Nat.le_of_ble_eq_true rfl, Nat.le_of_ble_eq_true rfl⟩ (Nat.le_of_ble_eq_true rfl) rfl ⟨Nat.le_of_ble_eq_true rfl, Nat.le_of_ble_eq_true rfl⟩ rfl rfl dX8_isSame_21 (fun r2 s2 hp hn2 => ?_)
    subst hp
    try dsimp only at h
    refine r_if_eq G (tgt := 49) dX8_isSame_24 (by decide) (fun c => ?_) (fun c => ?_)
    · rw [if_pos c] at h
      refine r_iconst G (v := 0) (by decide) dX8_isSame_49 ?_
      exact hret _ _ _ _ _ _ dX8_isSame_50 (Option.some.inj h).symm rfl (Nat.le_of_ble_eq_true rfl) (Nat.le_of_ble_eq_true rfl)
    · rw [if_neg c] at h
      refine r_aload_n G 0 rfl rfl dX8_isSame_27 ?_
      refine r_get G (C := RX8) (T := TX8) (N := 19) kX8_isSame_X8 67 (mw_MO bd κ _) rfl 1 (by decide) mX8_isSame_f27 rfl rfl dX8_isSame_28 ?_
      refine r_iload_n G 1 rfl rfl dX8_isSame_31 ?_
      obtain ⟨g3, h⟩ := og h
      refine r_aldA G 68 5 (mw_SETSG bd κ _) rfl (vin_in g3) rfl dX8_isSame_32 ?_
      refine r_aload_n G 0 rfl rfl dX8_isSame_33 ?_
      refine r_get G (C := RX8) (T := TX8) (N := 19) kX8_isSame_X8 67 (mw_MO bd κ _) rfl 1 (by decide) mX8_isSame_f27 rfl rfl dX8_isSame_34 ?_
      refine r_iload_n G 2 rfl rfl dX8_isSame_37 ?_
      obtain ⟨g4, h⟩ := og h
      refine r_aldA G 68 5 (mw_SETSG bd κ _) rfl (vin_in g4) rfl dX8_isSame_38 ?_
      obtain ⟨o5, e5, h⟩ := ob h
      refine r_callSi G [.ref (bd p0.toNatClampNeg), .ref (bd p1.toNatClampNeg)] (qX8_areSame hE p0.toNatClampNeg (by have := vin_lt g3; omega) p1.toNatClampNeg (by have := vin_lt g4; omega) _ e5) gX8_isSame_X8_areSame rfl hdX8_areSame ⟨Nat.le_of_ble_eq_true rfl, Nat.le_of_ble_eq_true rfl⟩ (Nat.le_of_ble_eq_true rfl) rfl ⟨Nat.le_of_ble_eq_true rfl, Nat.le_of_ble_eq_true rfl⟩ rfl rfl dX8_isSame_39 (fun r5 s5 hp hn5 => ?_)
      subst hp
      try dsimp only at h
      refine r_if_eq G (tgt := 49) dX8_isSame_42 (by decide) (fun c => ?_) (fun c => ?_)
      · rw [if_pos c] at h
        refine r_iconst G (v := 0) (by decide) dX8_isSame_49 ?_
        exact hret _ _ _ _ _ _ dX8_isSame_50 (Option.some.inj h).symm rfl (Nat.le_of_ble_eq_true rfl) (Nat.le_of_ble_eq_true rfl)
      · rw [if_neg c] at h
        refine r_iconst G (v := 1) (by decide) dX8_isSame_45 ?_
        refine r_goto G (tgt := 50) dX8_isSame_46 (by decide) ?_
        exact hret _ _ _ _ _ _ dX8_isSame_50 (Option.some.inj h).symm rfl (Nat.le_of_ble_eq_true rfl) (Nat.le_of_ble_eq_true rfl)
  · rw [if_neg c] at h
    refine r_iload_n G 2 rfl rfl dX8_isSame_8 ?_
    refine r_callSi G [.int p1] (qX8_isSet hE p1 _) gX8_isSame_X8_isSet rfl hdX8_isSet ⟨Nat.le_of_ble_eq_true rfl, Nat.le_of_ble_eq_true rfl⟩ (Nat.le_of_ble_eq_true rfl) rfl ⟨Nat.le_of_ble_eq_true rfl, Nat.le_of_ble_eq_true rfl⟩ rfl rfl dX8_isSame_9 (fun r6 s6 hp hn6 => ?_)
    obtain ⟨rfl, hs⟩ := hp
    have hs := hs.symm
    subst hs
    refine r_if_eq G (tgt := 19) dX8_isSame_12 (by decide) (fun c => ?_) (fun c => ?_)
    · rw [if_pos c] at h
      refine r_iconst G (v := 0) (by decide) dX8_isSame_19 ?_
      refine r_iconst G (v := 1) (by decide) dX8_isSame_20 ?_
      obtain ⟨o7, e7, h⟩ := ob h
      refine r_callVi G [.int 0, .int 1] (qX8_passes hE (0 : Int32) (1 : Int32) _ e7) ⟨67, 8, _, _, rfl, (mw_MO bd κ _), rfl⟩ gX8_isSame_X8_passes rfl hdX8_passes ⟨Nat.le_of_ble_eq_true rfl, Nat.le_of_ble_eq_true rfl⟩ (Nat.le_of_ble_eq_true rfl) rfl ⟨Nat.le_of_ble_eq_true rfl, Nat.le_of_ble_eq_true rfl⟩ rfl rfl dX8_isSame_21 (fun r7 s7 hp hn7 => ?_)
      subst hp
      try dsimp only at h
      refine r_if_eq G (tgt := 49) dX8_isSame_24 (by decide) (fun c => ?_) (fun c => ?_)
      · rw [if_pos c] at h
        refine r_iconst G (v := 0) (by decide) dX8_isSame_49 ?_
        exact hret _ _ _ _ _ _ dX8_isSame_50 (Option.some.inj h).symm rfl (Nat.le_of_ble_eq_true rfl) (Nat.le_of_ble_eq_true rfl)
      · rw [if_neg c] at h
        refine r_aload_n G 0 rfl rfl dX8_isSame_27 ?_
        refine r_get G (C := RX8) (T := TX8) (N := 19) kX8_isSame_X8 67 (mw_MO bd κ _) rfl 1 (by decide) mX8_isSame_f27 rfl rfl dX8_isSame_28 ?_
        refine r_iload_n G 1 rfl rfl dX8_isSame_31 ?_
        obtain ⟨g8, h⟩ := og h
        refine r_aldA G 68 5 (mw_SETSG bd κ _) rfl (vin_in g8) rfl dX8_isSame_32 ?_
        refine r_aload_n G 0 rfl rfl dX8_isSame_33 ?_
        refine r_get G (C := RX8) (T := TX8) (N := 19) kX8_isSame_X8 67 (mw_MO bd κ _) rfl 1 (by decide) mX8_isSame_f27 rfl rfl dX8_isSame_34 ?_
        refine r_iload_n G 2 rfl rfl dX8_isSame_37 ?_
        obtain ⟨g9, h⟩ := og h
        refine r_aldA G 68 5 (mw_SETSG bd κ _) rfl (vin_in g9) rfl dX8_isSame_38 ?_
        obtain ⟨o10, e10, h⟩ := ob h
        refine r_callSi G [.ref (bd p0.toNatClampNeg), .ref (bd p1.toNatClampNeg)] (qX8_areSame hE p0.toNatClampNeg (by have := vin_lt g8; omega) p1.toNatClampNeg (by have := vin_lt g9; omega) _ e10) gX8_isSame_X8_areSame rfl hdX8_areSame ⟨Nat.le_of_ble_eq_true rfl, Nat.le_of_ble_eq_true rfl⟩ (Nat.le_of_ble_eq_true rfl) rfl ⟨Nat.le_of_ble_eq_true rfl, Nat.le_of_ble_eq_true rfl⟩ rfl rfl dX8_isSame_39 (fun r10 s10 hp hn10 => ?_)
        subst hp
        try dsimp only at h
        refine r_if_eq G (tgt := 49) dX8_isSame_42 (by decide) (fun c => ?_) (fun c => ?_)
        · rw [if_pos c] at h
          refine r_iconst G (v := 0) (by decide) dX8_isSame_49 ?_
          exact hret _ _ _ _ _ _ dX8_isSame_50 (Option.some.inj h).symm rfl (Nat.le_of_ble_eq_true rfl) (Nat.le_of_ble_eq_true rfl)
        · rw [if_neg c] at h
          refine r_iconst G (v := 1) (by decide) dX8_isSame_45 ?_
          refine r_goto G (tgt := 50) dX8_isSame_46 (by decide) ?_
          exact hret _ _ _ _ _ _ dX8_isSame_50 (Option.some.inj h).symm rfl (Nat.le_of_ble_eq_true rfl) (Nat.le_of_ble_eq_true rfl)
    · rw [if_neg c] at h
      refine r_iconst G (v := 1) (by decide) dX8_isSame_15 ?_
      refine r_goto G (tgt := 20) dX8_isSame_16 (by decide) ?_
      refine r_iconst G (v := 1) (by decide) dX8_isSame_20 ?_
      obtain ⟨o11, e11, h⟩ := ob h
      refine r_callVi G [.int 1, .int 1] (qX8_passes hE (1 : Int32) (1 : Int32) _ e11) ⟨67, 8, _, _, rfl, (mw_MO bd κ _), rfl⟩ gX8_isSame_X8_passes rfl hdX8_passes ⟨Nat.le_of_ble_eq_true rfl, Nat.le_of_ble_eq_true rfl⟩ (Nat.le_of_ble_eq_true rfl) rfl ⟨Nat.le_of_ble_eq_true rfl, Nat.le_of_ble_eq_true rfl⟩ rfl rfl dX8_isSame_21 (fun r11 s11 hp hn11 => ?_)
      subst hp
      try dsimp only at h
      refine r_if_eq G (tgt := 49) dX8_isSame_24 (by decide) (fun c => ?_) (fun c => ?_)
      · rw [if_pos c] at h
        refine r_iconst G (v := 0) (by decide) dX8_isSame_49 ?_
        exact hret _ _ _ _ _ _ dX8_isSame_50 (Option.some.inj h).symm rfl (Nat.le_of_ble_eq_true rfl) (Nat.le_of_ble_eq_true rfl)
      · rw [if_neg c] at h
        refine r_aload_n G 0 rfl rfl dX8_isSame_27 ?_
        refine r_get G (C := RX8) (T := TX8) (N := 19) kX8_isSame_X8 67 (mw_MO bd κ _) rfl 1 (by decide) mX8_isSame_f27 rfl rfl dX8_isSame_28 ?_
        refine r_iload_n G 1 rfl rfl dX8_isSame_31 ?_
        obtain ⟨g12, h⟩ := og h
        refine r_aldA G 68 5 (mw_SETSG bd κ _) rfl (vin_in g12) rfl dX8_isSame_32 ?_
        refine r_aload_n G 0 rfl rfl dX8_isSame_33 ?_
        refine r_get G (C := RX8) (T := TX8) (N := 19) kX8_isSame_X8 67 (mw_MO bd κ _) rfl 1 (by decide) mX8_isSame_f27 rfl rfl dX8_isSame_34 ?_
        refine r_iload_n G 2 rfl rfl dX8_isSame_37 ?_
        obtain ⟨g13, h⟩ := og h
        refine r_aldA G 68 5 (mw_SETSG bd κ _) rfl (vin_in g13) rfl dX8_isSame_38 ?_
        obtain ⟨o14, e14, h⟩ := ob h
        refine r_callSi G [.ref (bd p0.toNatClampNeg), .ref (bd p1.toNatClampNeg)] (qX8_areSame hE p0.toNatClampNeg (by have := vin_lt g12; omega) p1.toNatClampNeg (by have := vin_lt g13; omega) _ e14) gX8_isSame_X8_areSame rfl hdX8_areSame ⟨Nat.le_of_ble_eq_true rfl, Nat.le_of_ble_eq_true rfl⟩ (Nat.le_of_ble_eq_true rfl) rfl ⟨Nat.le_of_ble_eq_true rfl, Nat.le_of_ble_eq_true rfl⟩ rfl rfl dX8_isSame_39 (fun r14 s14 hp hn14 => ?_)
        subst hp
        try dsimp only at h
        refine r_if_eq G (tgt := 49) dX8_isSame_42 (by decide) (fun c => ?_) (fun c => ?_)
        · rw [if_pos c] at h
          refine r_iconst G (v := 0) (by decide) dX8_isSame_49 ?_
          exact hret _ _ _ _ _ _ dX8_isSame_50 (Option.some.inj h).symm rfl (Nat.le_of_ble_eq_true rfl) (Nat.le_of_ble_eq_true rfl)
        · rw [if_neg c] at h
          refine r_iconst G (v := 1) (by decide) dX8_isSame_45 ?_
          refine r_goto G (tgt := 50) dX8_isSame_46 (by decide) ?_
          exact hret _ _ _ _ _ _ dX8_isSame_50 (Option.some.inj h).symm rfl (Nat.le_of_ble_eq_true rfl) (Nat.le_of_ble_eq_true rfl)
abbrev rmX8_votes : Room := { frames := 0, cells := 0, slots := 0, locals := 0 }
set_option maxRecDepth 20000 in
theorem kX8_votes_X8 : ∀ w ∈ u_ws RX8 TX8 19, w ∈ wsX8_votes := by decide +kernel
set_option maxRecDepth 20000 in
theorem mX8_votes_f27 : Cond.fieldLink RX8 27 "SetCouncilModel" "sets" "[[Z" ∈ wsX8_votes := by decide +kernel
set_option maxHeartbeats 4000000 in
set_option maxRecDepth 100000 in
theorem wX8_votes_L4 {E : evT} {l : Launch} {D : va_G} {bd : Nat → Nat} {κ : Nat → ClassId} (hE : EvOk E) {Γ : cxT} (G : Cx (mW bd κ) D (tyA κ) E l Γ cX8_votes RX8 wsX8_votes 4 rmX8_votes) (x1 : Int32) {o : (Int32 × mS)} (hret : ∀ (st2 : mS) (v : Int32) (cells slots pc : Nat) (lv : List (Nat × Value)), decode cX8_votes pc = .ok (.ireturn, 1) → o = (v, st2) → narrow .int (.int v) = .int v → cells ≤ rmX8_votes.cells → slots ≤ rmX8_votes.slots → V (mW bd κ) D Γ st2 cells slots pc lv [.int v]) : ∀ (fuel : Nat) (x2 : Int32) (x3 : Int32) (s : mS), fX8_votes_L4 x1 fuel x2 x3 s = some o → V (mW bd κ) D Γ s 0 0 4 [(0, .ref (bd 67)), (1, .int x1), (2, .int x2), (3, .int x3)] [] := by
  intro fuel
  induction fuel with
  | zero =>
    intro _ _ _ h
    have h : none = some o := h
    cases h
  | succ fuel ih =>
    intro x2 x3 s h
    rw [fX8_votes_L4] at h
    refine r_iload_n G 3 rfl rfl dX8_votes_4 ?_
    refine r_bipush G (v := 8) (by decide) dX8_votes_5 ?_
    refine r_icmp_ge G (tgt := 35) dX8_votes_7 (by decide) (fun c => ?_) (fun c => ?_)
    · rw [if_pos c] at h
      refine r_iload_n G 2 rfl rfl dX8_votes_35 ?_
      exact hret _ _ _ _ _ _ dX8_votes_36 (Option.some.inj h).symm rfl (Nat.le_of_ble_eq_true rfl) (Nat.le_of_ble_eq_true rfl)
    · rw [if_neg c] at h
      refine r_iload_n G 2 rfl rfl dX8_votes_10 ?_
      refine r_aload_n G 0 rfl rfl dX8_votes_11 ?_
      refine r_get G (C := RX8) (T := TX8) (N := 19) kX8_votes_X8 67 (mw_MO bd κ _) rfl 1 (by decide) mX8_votes_f27 rfl rfl dX8_votes_12 ?_
      refine r_iload_n G 3 rfl rfl dX8_votes_15 ?_
      obtain ⟨g1, h⟩ := og h
      refine r_aldA G 68 5 (mw_SETSG bd κ _) rfl (vin_in g1) rfl dX8_votes_16 ?_
      refine r_iload_n G 1 rfl rfl dX8_votes_17 ?_
      obtain ⟨g2, h⟩ := og h
      refine r_zald G x3.toNatClampNeg 4 (mw_ROW bd κ _ (by have := vin_lt g1; omega)) rfl (vin_in g2) dX8_votes_18 ?_
      refine r_if_eq G (tgt := 26) dX8_votes_19 (by decide) (fun c => ?_) (fun c => ?_)
      · rw [if_pos c] at h
        refine r_iconst G (v := 0) (by decide) dX8_votes_26 ?_
        refine r_iadd G dX8_votes_27 ?_
        refine r_istore_n G (lv' := [(0, .ref (bd 67)), (1, .int x1), (2, .int (x2 + 0)), (3, .int x3)]) [1, 2, 0, 3] rfl rfl (by decide) dX8_votes_28 ?_
        refine r_iinc G (j := 3) rfl (v := x3 + 1) (lv' := [(0, .ref (bd 67)), (1, .int x1), (2, .int (x2 + 0)), (3, .int (x3 + 1))]) rfl [1, 2, 3, 0] rfl (by decide) dX8_votes_29 ?_
        refine r_goto G (tgt := 4) dX8_votes_32 (by decide) ?_
        exact ih _ _ _ h
      · rw [if_neg c] at h
        refine r_iconst G (v := 1) (by decide) dX8_votes_22 ?_
        refine r_goto G (tgt := 27) dX8_votes_23 (by decide) ?_
        refine r_iadd G dX8_votes_27 ?_
        refine r_istore_n G (lv' := [(0, .ref (bd 67)), (1, .int x1), (2, .int (x2 + 1)), (3, .int x3)]) [1, 2, 0, 3] rfl rfl (by decide) dX8_votes_28 ?_
        refine r_iinc G (j := 3) rfl (v := x3 + 1) (lv' := [(0, .ref (bd 67)), (1, .int x1), (2, .int (x2 + 1)), (3, .int (x3 + 1))]) rfl [1, 2, 3, 0] rfl (by decide) dX8_votes_29 ?_
        refine r_goto G (tgt := 4) dX8_votes_32 (by decide) ?_
        exact ih _ _ _ h
set_option maxHeartbeats 4000000 in
set_option maxRecDepth 100000 in
theorem qX8_votes {E : evT} {l : Launch} {D : va_G} {bd : Nat → Nat} {κ : Nat → ClassId} (hE : EvOk E) (p0 : Int32) (s : mS) {o : (Int32 × mS)} (h : fX8_votes p0 s = some o) : Ci l yX8_votes wsX8_votes rmX8_votes (mW bd κ) E D (tyA κ) .int [.ref (bd 67), .int p0] s (fun r s2 => o = (r, s2)) := by
  rw [fX8_votes] at h
  refine s_i (cc := cX8_votes) (nL := 4) (own := RX8) hE (mW_WA bd κ) (plainFor_of_name (by decide)) rfl rfl (Nat.le_of_ble_eq_true rfl) (fun Γ G hret => ?_)
  refine r_iconst G (v := 0) (by decide) dX8_votes_0 ?_
  refine r_istore_n G (lv' := [(0, .ref (bd 67)), (1, .int p0), (2, .int 0)]) [1, 2, 0] rfl rfl (by decide) dX8_votes_1 ?_
  refine r_iconst G (v := 0) (by decide) dX8_votes_2 ?_
  refine r_istore_n G (lv' := [(0, .ref (bd 67)), (1, .int p0), (2, .int 0), (3, .int 0)]) [1, 2, 3, 0] rfl rfl (by decide) dX8_votes_3 ?_
  refine wX8_votes_L4 hE G _ hret 1100 _ _ _ h
abbrev rmX8_vote : Room := { frames := 2, cells := 0, slots := 0, locals := 42 }
theorem hdX8_votes : yX8_votes.cls = RX8 ∧ yX8_votes.cls ≠ "java/lang/invoke/MethodHandle" ∧ yX8_votes.cls ≠ "java/lang/invoke/VarHandle" ∧ (parseMethodDescriptor yX8_votes.desc).map (fun d => d.parameters.length) = some 1 := by decide +kernel
set_option maxHeartbeats 4000000 in
set_option maxRecDepth 100000 in
theorem qX8_vote {E : evT} {l : Launch} {D : va_G} {bd : Nat → Nat} {κ : Nat → ClassId} (hE : EvOk E) (p0 : Int32) (s : mS) {o : (Int32 × mS)} (h : fX8_vote p0 s = some o) : Ci l yX8_vote wsX8_vote rmX8_vote (mW bd κ) E D (tyA κ) .int [.ref (bd 67), .int p0] s (fun r s2 => o = (r, s2)) := by
  rw [fX8_vote] at h
  refine s_i (cc := cX8_vote) (nL := 2) (own := RX8) hE (mW_WA bd κ) (plainFor_of_name (by decide)) rfl rfl (Nat.le_of_ble_eq_true rfl) (fun Γ G hret => ?_)
  refine r_aload_n G 0 rfl rfl dX8_vote_0 ?_
  refine r_iload_n G 1 rfl rfl dX8_vote_1 ?_
  refine r_callSi G [.int p0] (qX8_isMember hE p0 _) gX8_vote_X8_isMember rfl hdX8_isMember ⟨Nat.le_of_ble_eq_true rfl, Nat.le_of_ble_eq_true rfl⟩ (Nat.le_of_ble_eq_true rfl) rfl ⟨Nat.le_of_ble_eq_true rfl, Nat.le_of_ble_eq_true rfl⟩ rfl rfl dX8_vote_2 (fun r1 s1 hp hn1 => ?_)
  obtain ⟨rfl, hs⟩ := hp
  have hs := hs.symm
  subst hs
  refine r_iconst G (v := 1) (by decide) dX8_vote_5 ?_
  obtain ⟨o2, e2, h⟩ := ob h
  refine r_callVi G [.int (fX8_isMember p0 s), .int 1] (qX8_passes hE (fX8_isMember p0 s) (1 : Int32) _ e2) ⟨67, 8, _, _, rfl, (mw_MO bd κ _), rfl⟩ gX8_vote_X8_passes rfl hdX8_passes ⟨Nat.le_of_ble_eq_true rfl, Nat.le_of_ble_eq_true rfl⟩ (Nat.le_of_ble_eq_true rfl) rfl ⟨Nat.le_of_ble_eq_true rfl, Nat.le_of_ble_eq_true rfl⟩ rfl rfl dX8_vote_6 (fun r2 s2 hp hn2 => ?_)
  subst hp
  try dsimp only at h
  refine r_if_eq G (tgt := 23) dX8_vote_9 (by decide) (fun c => ?_) (fun c => ?_)
  · rw [if_pos c] at h
    refine r_iconst G (v := 0) (by decide) dX8_vote_23 ?_
    exact hret _ _ _ _ _ _ dX8_vote_24 (Option.some.inj h).symm rfl (Nat.le_of_ble_eq_true rfl) (Nat.le_of_ble_eq_true rfl)
  · rw [if_neg c] at h
    refine r_aload_n G 0 rfl rfl dX8_vote_12 ?_
    refine r_iload_n G 1 rfl rfl dX8_vote_13 ?_
    refine r_callSi G [.int p0] (qX8_placeOfMember hE p0 _) gX8_vote_X8_placeOfMember rfl hdX8_placeOfMember ⟨Nat.le_of_ble_eq_true rfl, Nat.le_of_ble_eq_true rfl⟩ (Nat.le_of_ble_eq_true rfl) rfl ⟨Nat.le_of_ble_eq_true rfl, Nat.le_of_ble_eq_true rfl⟩ rfl rfl dX8_vote_14 (fun r3 s3 hp hn3 => ?_)
    obtain ⟨rfl, hs⟩ := hp
    have hs := hs.symm
    subst hs
    obtain ⟨o4, e4, h⟩ := ob h
    refine r_callVi G [.int (fX8_placeOfMember p0 s2)] (qX8_votes hE (fX8_placeOfMember p0 s2) _ e4) ⟨67, 8, _, _, rfl, (mw_MO bd κ _), rfl⟩ gX8_vote_X8_votes rfl hdX8_votes ⟨Nat.le_of_ble_eq_true rfl, Nat.le_of_ble_eq_true rfl⟩ (Nat.le_of_ble_eq_true rfl) rfl ⟨Nat.le_of_ble_eq_true rfl, Nat.le_of_ble_eq_true rfl⟩ rfl rfl dX8_vote_17 (fun r4 s4 hp hn4 => ?_)
    subst hp
    try dsimp only at h
    refine r_goto G (tgt := 24) dX8_vote_20 (by decide) ?_
    exact hret _ _ _ _ _ _ dX8_vote_24 (Option.some.inj h).symm rfl (Nat.le_of_ble_eq_true rfl) (Nat.le_of_ble_eq_true rfl)
abbrev rmX8_elect : Room := { frames := 2, cells := 0, slots := 0, locals := 42 }
set_option maxRecDepth 20000 in
theorem kX8_elect_X8 : ∀ w ∈ u_ws RX8 TX8 19, w ∈ wsX8_elect := by decide +kernel
set_option maxRecDepth 20000 in
theorem mX8_elect_f27 : Cond.fieldLink RX8 27 "SetCouncilModel" "sets" "[[Z" ∈ wsX8_elect := by decide +kernel
set_option maxHeartbeats 4000000 in
set_option maxRecDepth 100000 in
theorem wX8_elect_L22 {E : evT} {l : Launch} {D : va_G} {bd : Nat → Nat} {κ : Nat → ClassId} (hE : EvOk E) {Γ : cxT} (G : Cx (mW bd κ) D (tyA κ) E l Γ cX8_elect RX8 wsX8_elect 4 rmX8_elect) (x1 : Int32) (x2 : Int32) {o : (Int32 × mS)} (hret : ∀ (st2 : mS) (v : Int32) (cells slots pc : Nat) (lv : List (Nat × Value)), decode cX8_elect pc = .ok (.ireturn, 1) → o = (v, st2) → narrow .int (.int v) = .int v → cells ≤ rmX8_elect.cells → slots ≤ rmX8_elect.slots → V (mW bd κ) D Γ st2 cells slots pc lv [.int v]) {k0 : mS → Option (Int32 × mS)} (hk0 : ∀ (s : mS), k0 s = some o → V (mW bd κ) D Γ s 0 0 56 [(0, .ref (bd 67)), (1, .int x1)] []) : ∀ (fuel : Nat) (x3 : Int32) (s : mS), fX8_elect_L22 x1 x2 k0 fuel x3 s = some o → V (mW bd κ) D Γ s 0 0 22 [(0, .ref (bd 67)), (1, .int x1), (2, .int x2), (3, .int x3)] [] := by
  intro fuel
  induction fuel with
  | zero =>
    intro _ _ h
    have h : none = some o := h
    cases h
  | succ fuel ih =>
    intro x3 s h
    rw [fX8_elect_L22] at h
    refine r_iload_n G 3 rfl rfl dX8_elect_22 ?_
    refine r_bipush G (v := 102) (by decide) dX8_elect_23 ?_
    refine r_icmp_ge G (tgt := 56) dX8_elect_25 (by decide) (fun c => ?_) (fun c => ?_)
    · rw [if_pos c] at h
      refine V.sub (lv' := [(0, .ref (bd 67)), (1, .int x1)]) [0, 1] rfl ?_
      exact hk0 _ h
    · rw [if_neg c] at h
      refine r_aload_n G 0 rfl rfl dX8_elect_28 ?_
      refine r_get G (C := RX8) (T := TX8) (N := 19) kX8_elect_X8 67 (mw_MO bd κ _) rfl 1 (by decide) mX8_elect_f27 rfl rfl dX8_elect_29 ?_
      refine r_iload_n G 1 rfl rfl dX8_elect_32 ?_
      obtain ⟨g4, h⟩ := og h
      refine r_aldA G 68 5 (mw_SETSG bd κ _) rfl (vin_in g4) rfl dX8_elect_33 ?_
      refine r_iload_n G 3 rfl rfl dX8_elect_34 ?_
      refine r_aload_n G 0 rfl rfl dX8_elect_35 ?_
      refine r_iload_n G 3 rfl rfl dX8_elect_36 ?_
      obtain ⟨o5, e5, h⟩ := ob h
      refine r_callVi G [.int x3] (qX8_votes hE x3 _ e5) ⟨67, 8, _, _, rfl, (mw_MO bd κ _), rfl⟩ gX8_elect_X8_votes rfl hdX8_votes ⟨Nat.le_of_ble_eq_true rfl, Nat.le_of_ble_eq_true rfl⟩ (Nat.le_of_ble_eq_true rfl) rfl ⟨Nat.le_of_ble_eq_true rfl, Nat.le_of_ble_eq_true rfl⟩ rfl rfl dX8_elect_37 (fun r5 s5 hp hn5 => ?_)
      subst hp
      try dsimp only at h
      refine r_iload_n G 2 rfl rfl dX8_elect_40 ?_
      refine r_icmp_lt G (tgt := 48) dX8_elect_41 (by decide) (fun c => ?_) (fun c => ?_)
      · rw [if_pos c] at h
        refine r_iconst G (v := 0) (by decide) dX8_elect_48 ?_
        obtain ⟨g6, h⟩ := og h
        refine r_zast G x1.toNatClampNeg 4 (mw_ROW bd κ _ (by have := vin_lt g4; omega)) rfl (vin_in g6) (mu_ROW bd κ _ (by have := vin_lt g4; omega) _ _) dX8_elect_49 ?_
        refine r_iinc G (j := 3) rfl (v := x3 + 1) (lv' := [(0, .ref (bd 67)), (1, .int x1), (2, .int x2), (3, .int (x3 + 1))]) rfl [1, 2, 3, 0] rfl (by decide) dX8_elect_50 ?_
        refine r_goto G (tgt := 22) dX8_elect_53 (by decide) ?_
        exact ih _ _ h
      · rw [if_neg c] at h
        refine r_iconst G (v := 1) (by decide) dX8_elect_44 ?_
        refine r_goto G (tgt := 49) dX8_elect_45 (by decide) ?_
        obtain ⟨g7, h⟩ := og h
        refine r_zast G x1.toNatClampNeg 4 (mw_ROW bd κ _ (by have := vin_lt g4; omega)) rfl (vin_in g7) (mu_ROW bd κ _ (by have := vin_lt g4; omega) _ _) dX8_elect_49 ?_
        refine r_iinc G (j := 3) rfl (v := x3 + 1) (lv' := [(0, .ref (bd 67)), (1, .int x1), (2, .int x2), (3, .int (x3 + 1))]) rfl [1, 2, 3, 0] rfl (by decide) dX8_elect_50 ?_
        refine r_goto G (tgt := 22) dX8_elect_53 (by decide) ?_
        exact ih _ _ h
set_option maxHeartbeats 4000000 in
set_option maxRecDepth 100000 in
theorem qX8_elect {E : evT} {l : Launch} {D : va_G} {bd : Nat → Nat} {κ : Nat → ClassId} (hE : EvOk E) (p0 : Int32) (p1 : Int32) (s : mS) {o : (Int32 × mS)} (h : fX8_elect p0 p1 s = some o) : Ci l yX8_elect wsX8_elect rmX8_elect (mW bd κ) E D (tyA κ) .int [.ref (bd 67), .int p0, .int p1] s (fun r s2 => o = (r, s2)) := by
  rw [fX8_elect] at h
  refine s_i (cc := cX8_elect) (nL := 4) (own := RX8) hE (mW_WA bd κ) (plainFor_of_name (by decide)) rfl rfl (Nat.le_of_ble_eq_true rfl) (fun Γ G hret => ?_)
  refine r_aload_n G 0 rfl rfl dX8_elect_0 ?_
  refine r_iload_n G 1 rfl rfl dX8_elect_1 ?_
  refine r_callSi G [.int p0] (qX8_isSet hE p0 _) gX8_elect_X8_isSet rfl hdX8_isSet ⟨Nat.le_of_ble_eq_true rfl, Nat.le_of_ble_eq_true rfl⟩ (Nat.le_of_ble_eq_true rfl) rfl ⟨Nat.le_of_ble_eq_true rfl, Nat.le_of_ble_eq_true rfl⟩ rfl rfl dX8_elect_2 (fun r1 s1 hp hn1 => ?_)
  obtain ⟨rfl, hs⟩ := hp
  have hs := hs.symm
  subst hs
  refine r_iload_n G 2 rfl rfl dX8_elect_5 ?_
  refine r_iconst G (v := 1) (by decide) dX8_elect_6 ?_
  refine r_bipush G (v := 8) (by decide) dX8_elect_7 ?_
  refine r_callSi G [.int p1, .int 1, .int 8] (qX8_in hE p1 (1 : Int32) (8 : Int32) _) gX8_elect_X8_in rfl hdX8_in ⟨Nat.le_of_ble_eq_true rfl, Nat.le_of_ble_eq_true rfl⟩ (Nat.le_of_ble_eq_true rfl) rfl ⟨Nat.le_of_ble_eq_true rfl, Nat.le_of_ble_eq_true rfl⟩ rfl rfl dX8_elect_9 (fun r2 s2 hp hn2 => ?_)
  obtain ⟨rfl, hs⟩ := hp
  have hs := hs.symm
  subst hs
  obtain ⟨o3, e3, h⟩ := ob h
  refine r_callVi G [.int (fX8_isSet p0 s), .int (fX8_in p1 (1 : Int32) (8 : Int32) s)] (qX8_passes hE (fX8_isSet p0 s) (fX8_in p1 (1 : Int32) (8 : Int32) s) _ e3) ⟨67, 8, _, _, rfl, (mw_MO bd κ _), rfl⟩ gX8_elect_X8_passes rfl hdX8_passes ⟨Nat.le_of_ble_eq_true rfl, Nat.le_of_ble_eq_true rfl⟩ (Nat.le_of_ble_eq_true rfl) rfl ⟨Nat.le_of_ble_eq_true rfl, Nat.le_of_ble_eq_true rfl⟩ rfl rfl dX8_elect_12 (fun r3 s3 hp hn3 => ?_)
  subst hp
  try dsimp only at h
  refine r_if_ne G (tgt := 20) dX8_elect_15 (by decide) (fun c => ?_) (fun c => ?_)
  · rw [if_neg c] at h
    refine r_iconst G (v := 0) (by decide) dX8_elect_20 ?_
    refine r_istore_n G (lv' := [(0, .ref (bd 67)), (1, .int p0), (2, .int p1), (3, .int 0)]) [1, 2, 3, 0] rfl rfl (by decide) dX8_elect_21 ?_
    refine wX8_elect_L22 hE G _ _ hret (fun s8 h => ?_) 1100 _ _ h
    · try dsimp only at h
      refine r_aload_n G 0 rfl rfl dX8_elect_56 ?_
      refine r_get G (C := RX8) (T := TX8) (N := 19) kX8_elect_X8 67 (mw_MO bd κ _) rfl 1 (by decide) mX8_elect_f27 rfl rfl dX8_elect_57 ?_
      refine r_iload_n G 1 rfl rfl dX8_elect_60 ?_
      obtain ⟨g9, h⟩ := og h
      refine r_aldA G 68 5 (mw_SETSG bd κ _) rfl (vin_in g9) rfl dX8_elect_61 ?_
      obtain ⟨o10, e10, h⟩ := ob h
      refine r_callSi G [.ref (bd p0.toNatClampNeg)] (qX8_sizeOf hE p0.toNatClampNeg (by have := vin_lt g9; omega) _ e10) gX8_elect_X8_sizeOf rfl hdX8_sizeOf ⟨Nat.le_of_ble_eq_true rfl, Nat.le_of_ble_eq_true rfl⟩ (Nat.le_of_ble_eq_true rfl) rfl ⟨Nat.le_of_ble_eq_true rfl, Nat.le_of_ble_eq_true rfl⟩ rfl rfl dX8_elect_62 (fun r10 s10 hp hn10 => ?_)
      subst hp
      try dsimp only at h
      exact hret _ _ _ _ _ _ dX8_elect_65 (Option.some.inj h).symm rfl (Nat.le_of_ble_eq_true rfl) (Nat.le_of_ble_eq_true rfl)
  · rw [if_pos c] at h
    refine r_iconst G (v := 0) (by decide) dX8_elect_18 ?_
    exact hret _ _ _ _ _ _ dX8_elect_19 (Option.some.inj h).symm rfl (Nat.le_of_ble_eq_true rfl) (Nat.le_of_ble_eq_true rfl)
abbrev rmX8_find : Room := { frames := 2, cells := 0, slots := 0, locals := 43 }
set_option maxHeartbeats 4000000 in
set_option maxRecDepth 100000 in
theorem wX8_find_L2 {E : evT} {l : Launch} {D : va_G} {bd : Nat → Nat} {κ : Nat → ClassId} (hE : EvOk E) {Γ : cxT} (G : Cx (mW bd κ) D (tyA κ) E l Γ cX8_find RX8 wsX8_find 4 rmX8_find) (z0 : Nat) (hz0 : z0 < 2) (x1 : Int32) (z2 : Nat) (hz2 : z2 < 67) {o : (Int32 × mS)} (hret : ∀ (st2 : mS) (v : Int32) (cells slots pc : Nat) (lv : List (Nat × Value)), decode cX8_find pc = .ok (.ireturn, 1) → o = (v, st2) → narrow .int (.int v) = .int v → cells ≤ rmX8_find.cells → slots ≤ rmX8_find.slots → V (mW bd κ) D Γ st2 cells slots pc lv [.int v]) : ∀ (fuel : Nat) (x3 : Int32) (s : mS), fX8_find_L2 z0 x1 z2 fuel x3 s = some o → V (mW bd κ) D Γ s 0 0 2 [(0, .ref (bd (69 + z0))), (1, .int x1), (2, .ref (bd z2)), (3, .int x3)] [] := by
  intro fuel
  induction fuel with
  | zero =>
    intro _ _ h
    have h : none = some o := h
    cases h
  | succ fuel ih =>
    intro x3 s h
    rw [fX8_find_L2] at h
    refine r_iload_n G 3 rfl rfl dX8_find_2 ?_
    refine r_iload_n G 1 rfl rfl dX8_find_3 ?_
    refine r_icmp_ge G (tgt := 25) dX8_find_4 (by decide) (fun c => ?_) (fun c => ?_)
    · rw [if_pos c] at h
      refine r_iconst G (v := (-1)) (by decide) dX8_find_25 ?_
      exact hret _ _ _ _ _ _ dX8_find_26 (Option.some.inj h).symm rfl (Nat.le_of_ble_eq_true rfl) (Nat.le_of_ble_eq_true rfl)
    · rw [if_neg c] at h
      refine r_aload_n G 0 rfl rfl dX8_find_7 ?_
      refine r_iload_n G 3 rfl rfl dX8_find_8 ?_
      obtain ⟨g1, h⟩ := og h
      refine r_aldA G (69 + z0) 5 (mw_GRID bd κ _ hz0) rfl (vin_in g1) rfl dX8_find_9 ?_
      refine r_aload_n G 2 rfl rfl dX8_find_10 ?_
      obtain ⟨o2, e2, h⟩ := ob h
      refine r_callSi G [.ref (bd (9 + 7 * z0 + x3.toNatClampNeg)), .ref (bd z2)] (qX8_areSame hE (9 + 7 * z0 + x3.toNatClampNeg) (by have := vin_lt g1; have h2 : z0 < 2 := hz0; omega) z2 hz2 _ e2) gX8_find_X8_areSame rfl hdX8_areSame ⟨Nat.le_of_ble_eq_true rfl, Nat.le_of_ble_eq_true rfl⟩ (Nat.le_of_ble_eq_true rfl) rfl ⟨Nat.le_of_ble_eq_true rfl, Nat.le_of_ble_eq_true rfl⟩ rfl rfl dX8_find_11 (fun r2 s2 hp hn2 => ?_)
      subst hp
      try dsimp only at h
      refine r_if_eq G (tgt := 19) dX8_find_14 (by decide) (fun c => ?_) (fun c => ?_)
      · rw [if_pos c] at h
        refine r_iinc G (j := 3) rfl (v := x3 + 1) (lv' := [(0, .ref (bd (69 + z0))), (1, .int x1), (2, .ref (bd z2)), (3, .int (x3 + 1))]) rfl [1, 2, 3, 0] rfl (by decide) dX8_find_19 ?_
        refine r_goto G (tgt := 2) dX8_find_22 (by decide) ?_
        exact ih _ _ h
      · rw [if_neg c] at h
        refine r_iload_n G 3 rfl rfl dX8_find_17 ?_
        exact hret _ _ _ _ _ _ dX8_find_18 (Option.some.inj h).symm rfl (Nat.le_of_ble_eq_true rfl) (Nat.le_of_ble_eq_true rfl)
set_option maxHeartbeats 4000000 in
set_option maxRecDepth 100000 in
theorem qX8_find {E : evT} {l : Launch} {D : va_G} {bd : Nat → Nat} {κ : Nat → ClassId} (hE : EvOk E) (p0 : Nat) (hp0 : p0 < 2) (p1 : Int32) (p2 : Nat) (hp2 : p2 < 67) (s : mS) {o : (Int32 × mS)} (h : fX8_find p0 p1 p2 s = some o) : Ci l yX8_find wsX8_find rmX8_find (mW bd κ) E D (tyA κ) .int [.ref (bd (69 + p0)), .int p1, .ref (bd p2)] s (fun r s2 => o = (r, s2)) := by
  rw [fX8_find] at h
  refine s_i (cc := cX8_find) (nL := 4) (own := RX8) hE (mW_WA bd κ) (plainFor_of_name (by decide)) rfl rfl (Nat.le_of_ble_eq_true rfl) (fun Γ G hret => ?_)
  refine r_iconst G (v := 0) (by decide) dX8_find_0 ?_
  refine r_istore_n G (lv' := [(0, .ref (bd (69 + p0))), (1, .int p1), (2, .ref (bd p2)), (3, .int 0)]) [1, 2, 3, 0] rfl rfl (by decide) dX8_find_1 ?_
  refine wX8_find_L2 hE G _ hp0 _ _ hp2 hret 1100 _ _ h
abbrev rmX8_isAhead : Room := { frames := 1, cells := 0, slots := 0, locals := 22 }
set_option maxHeartbeats 4000000 in
set_option maxRecDepth 100000 in
theorem qX8_isAhead {E : evT} {l : Launch} {D : va_G} {bd : Nat → Nat} {κ : Nat → ClassId} (hE : EvOk E) (p0 : Nat) (hp0 : p0 < 67) (p1 : Nat) (hp1 : p1 < 67) (s : mS) {o : (Int32 × mS)} (h : fX8_isAhead p0 p1 s = some o) : Ci l yX8_isAhead wsX8_isAhead rmX8_isAhead (mW bd κ) E D (tyA κ) .boolean [.ref (bd p0), .ref (bd p1)] s (fun r s2 => o = (r, s2)) := by
  rw [fX8_isAhead] at h
  refine s_i (cc := cX8_isAhead) (nL := 3) (own := RX8) hE (mW_WA bd κ) (plainFor_of_name (by decide)) rfl rfl (Nat.le_of_ble_eq_true rfl) (fun Γ G hret => ?_)
  refine r_aload_n G 0 rfl rfl dX8_isAhead_0 ?_
  refine r_aload_n G 1 rfl rfl dX8_isAhead_1 ?_
  obtain ⟨o1, e1, h⟩ := ob h
  refine r_callSi G [.ref (bd p0), .ref (bd p1)] (qX8_firstOther hE p0 hp0 p1 hp1 _ e1) gX8_isAhead_X8_firstOther rfl hdX8_firstOther ⟨Nat.le_of_ble_eq_true rfl, Nat.le_of_ble_eq_true rfl⟩ (Nat.le_of_ble_eq_true rfl) rfl ⟨Nat.le_of_ble_eq_true rfl, Nat.le_of_ble_eq_true rfl⟩ rfl rfl dX8_isAhead_2 (fun r1 s1 hp hn1 => ?_)
  subst hp
  try dsimp only at h
  refine r_istore_n G (lv' := [(0, .ref (bd p0)), (2, .int r1)]) [1, 0] rfl rfl (by decide) dX8_isAhead_5 ?_
  refine r_iload_n G 1 rfl rfl dX8_isAhead_6 ?_
  refine r_iconst G (v := (-1)) (by decide) dX8_isAhead_7 ?_
  refine r_icmp_eq G (tgt := 21) dX8_isAhead_8 (by decide) (fun c => ?_) (fun c => ?_)
  · rw [if_pos c] at h
    refine r_iconst G (v := 0) (by decide) dX8_isAhead_21 ?_
    exact hret _ _ _ _ _ _ dX8_isAhead_22 (Option.some.inj h).symm rfl (Nat.le_of_ble_eq_true rfl) (Nat.le_of_ble_eq_true rfl)
  · rw [if_neg c] at h
    refine r_aload_n G 0 rfl rfl dX8_isAhead_11 ?_
    refine r_iload_n G 1 rfl rfl dX8_isAhead_12 ?_
    obtain ⟨g2, h⟩ := og h
    refine r_zald G p0 4 (mw_ROW bd κ _ hp0) rfl (vin_in g2) dX8_isAhead_13 ?_
    refine r_if_eq G (tgt := 21) dX8_isAhead_14 (by decide) (fun c => ?_) (fun c => ?_)
    · rw [if_pos c] at h
      refine r_iconst G (v := 0) (by decide) dX8_isAhead_21 ?_
      exact hret _ _ _ _ _ _ dX8_isAhead_22 (Option.some.inj h).symm rfl (Nat.le_of_ble_eq_true rfl) (Nat.le_of_ble_eq_true rfl)
    · rw [if_neg c] at h
      refine r_iconst G (v := 1) (by decide) dX8_isAhead_17 ?_
      refine r_goto G (tgt := 22) dX8_isAhead_18 (by decide) ?_
      exact hret _ _ _ _ _ _ dX8_isAhead_22 (Option.some.inj h).symm rfl (Nat.le_of_ble_eq_true rfl) (Nat.le_of_ble_eq_true rfl)
abbrev rmX8_inserts : Room := { frames := 2, cells := 0, slots := 0, locals := 44 }
theorem hdX8_isAhead : yX8_isAhead.cls ≠ "java/lang/invoke/MethodHandle" ∧ yX8_isAhead.cls ≠ "java/lang/invoke/VarHandle" ∧ (parseMethodDescriptor yX8_isAhead.desc).map (fun d => d.parameters.length) = some 2 := by decide +kernel
set_option maxHeartbeats 4000000 in
set_option maxRecDepth 100000 in
theorem wX8_inserts_L2 {E : evT} {l : Launch} {D : va_G} {bd : Nat → Nat} {κ : Nat → ClassId} (hE : EvOk E) {Γ : cxT} (G : Cx (mW bd κ) D (tyA κ) E l Γ cX8_inserts RX8 wsX8_inserts 4 rmX8_inserts) (z0 : Nat) (hz0 : z0 < 2) (z2 : Nat) (hz2 : z2 < 67) {o : (mS)} (hret : ∀ (st2 : mS) (cells slots pc : Nat) (lv : List (Nat × Value)), decode cX8_inserts pc = .ok (.return_, 1) → o = st2 → cells ≤ rmX8_inserts.cells → slots ≤ rmX8_inserts.slots → V (mW bd κ) D Γ st2 cells slots pc lv []) {k0 : Int32 → mS → Option (mS)} (hk0 : ∀ (y3 : Int32) (s : mS), k0 y3 s = some o → V (mW bd κ) D Γ s 0 0 35 [(0, .ref (bd (69 + z0))), (2, .ref (bd z2)), (3, .int y3)] []) : ∀ (fuel : Nat) (x3 : Int32) (s : mS), fX8_inserts_L2 z0 z2 k0 fuel x3 s = some o → V (mW bd κ) D Γ s 0 0 2 [(0, .ref (bd (69 + z0))), (2, .ref (bd z2)), (3, .int x3)] [] := by
  intro fuel
  induction fuel with
  | zero =>
    intro _ _ h
    have h : none = some o := h
    cases h
  | succ fuel ih =>
    intro x3 s h
    rw [fX8_inserts_L2] at h
    refine r_iload_n G 2 rfl rfl dX8_inserts_2 ?_
    refine r_if_le G (tgt := 35) dX8_inserts_3 (by decide) (fun c => ?_) (fun c => ?_)
    · rw [if_pos c] at h
      exact hk0 _ _ h
    · rw [if_neg c] at h
      refine r_aload_n G 1 rfl rfl dX8_inserts_6 ?_
      refine r_aload_n G 0 rfl rfl dX8_inserts_7 ?_
      refine r_iload_n G 2 rfl rfl dX8_inserts_8 ?_
      refine r_iconst G (v := 1) (by decide) dX8_inserts_9 ?_
      refine r_isub G dX8_inserts_10 ?_
      obtain ⟨g1, h⟩ := og h
      refine r_aldA G (69 + z0) 5 (mw_GRID bd κ _ hz0) rfl (vin_in g1) rfl dX8_inserts_11 ?_
      obtain ⟨o2, e2, h⟩ := ob h
      refine r_callSi G [.ref (bd z2), .ref (bd (9 + 7 * z0 + (x3 - 1).toNatClampNeg))] (qX8_isAhead hE z2 hz2 (9 + 7 * z0 + (x3 - 1).toNatClampNeg) (by have := vin_lt g1; have h2 : z0 < 2 := hz0; omega) _ e2) gX8_inserts_X8_isAhead rfl hdX8_isAhead ⟨Nat.le_of_ble_eq_true rfl, Nat.le_of_ble_eq_true rfl⟩ (Nat.le_of_ble_eq_true rfl) rfl ⟨Nat.le_of_ble_eq_true rfl, Nat.le_of_ble_eq_true rfl⟩ rfl rfl dX8_inserts_12 (fun r2 s2 hp hn2 => ?_)
      subst hp
      try dsimp only at h
      refine r_if_eq G (tgt := 35) dX8_inserts_15 (by decide) (fun c => ?_) (fun c => ?_)
      · rw [if_pos c] at h
        exact hk0 _ _ h
      · rw [if_neg c] at h
        refine r_aload_n G 0 rfl rfl dX8_inserts_18 ?_
        refine r_iload_n G 2 rfl rfl dX8_inserts_19 ?_
        refine r_iconst G (v := 1) (by decide) dX8_inserts_20 ?_
        refine r_isub G dX8_inserts_21 ?_
        obtain ⟨g3, h⟩ := og h
        refine r_aldA G (69 + z0) 5 (mw_GRID bd κ _ hz0) rfl (vin_in g3) rfl dX8_inserts_22 ?_
        refine r_aload_n G 0 rfl rfl dX8_inserts_23 ?_
        refine r_iload_n G 2 rfl rfl dX8_inserts_24 ?_
        obtain ⟨g4, h⟩ := og h
        refine r_aldA G (69 + z0) 5 (mw_GRID bd κ _ hz0) rfl (vin_in g4) rfl dX8_inserts_25 ?_
        obtain ⟨o5, e5, h⟩ := ob h
        refine r_callSv G [.ref (bd (9 + 7 * z0 + (x3 - 1).toNatClampNeg)), .ref (bd (9 + 7 * z0 + x3.toNatClampNeg))] (qX8_copies hE (9 + 7 * z0 + (x3 - 1).toNatClampNeg) (by have := vin_lt g3; have h2 : z0 < 2 := hz0; omega) (9 + 7 * z0 + x3.toNatClampNeg) (by have := vin_lt g4; have h2 : z0 < 2 := hz0; omega) _ e5) gX8_inserts_X8_copies rfl hdX8_copies ⟨Nat.le_of_ble_eq_true rfl, Nat.le_of_ble_eq_true rfl⟩ (Nat.le_of_ble_eq_true rfl) rfl ⟨Nat.le_of_ble_eq_true rfl, Nat.le_of_ble_eq_true rfl⟩ rfl rfl dX8_inserts_26 (fun s5 hp => ?_)
        have hp := hp.symm
        subst hp
        try dsimp only at h
        refine r_iinc G (j := 2) rfl (v := x3 + (-1)) (lv' := [(0, .ref (bd (69 + z0))), (2, .ref (bd z2)), (3, .int (x3 + (-1)))]) (iincm _) [1, 2, 0] rfl (by decide) dX8_inserts_29 ?_
        refine r_goto G (tgt := 2) dX8_inserts_32 (by decide) ?_
        exact ih _ _ h
set_option maxHeartbeats 4000000 in
set_option maxRecDepth 100000 in
theorem qX8_inserts {E : evT} {l : Launch} {D : va_G} {bd : Nat → Nat} {κ : Nat → ClassId} (hE : EvOk E) (p0 : Nat) (hp0 : p0 < 2) (p1 : Int32) (p2 : Nat) (hp2 : p2 < 67) (s : mS) {o : (mS)} (h : fX8_inserts p0 p1 p2 s = some o) : Cv l yX8_inserts wsX8_inserts rmX8_inserts (mW bd κ) E D (tyA κ)  [.ref (bd (69 + p0)), .int p1, .ref (bd p2)] s (fun s2 => o = s2) := by
  rw [fX8_inserts] at h
  refine s_v (cc := cX8_inserts) (nL := 4) (own := RX8) hE (mW_WA bd κ) (by decide) rfl rfl (Nat.le_of_ble_eq_true rfl) (fun Γ G hret => ?_)
  refine r_iload_n G 1 rfl rfl dX8_inserts_0 ?_
  refine r_istore_n G (lv' := [(0, .ref (bd (69 + p0))), (2, .ref (bd p2)), (3, .int p1)]) [1, 3, 0] rfl rfl (by decide) dX8_inserts_1 ?_
  refine wX8_inserts_L2 hE G _ hp0 _ hp2 hret (fun y3_6 s6 h => ?_) 1100 _ _ h
  · try dsimp only at h
    refine r_aload_n G 1 rfl rfl dX8_inserts_35 ?_
    refine r_aload_n G 0 rfl rfl dX8_inserts_36 ?_
    refine r_iload_n G 2 rfl rfl dX8_inserts_37 ?_
    obtain ⟨g7, h⟩ := og h
    refine r_aldA G (69 + p0) 5 (mw_GRID bd κ _ hp0) rfl (vin_in g7) rfl dX8_inserts_38 ?_
    obtain ⟨o8, e8, h⟩ := ob h
    refine r_callSv G [.ref (bd p2), .ref (bd (9 + 7 * p0 + y3_6.toNatClampNeg))] (qX8_copies hE p2 hp2 (9 + 7 * p0 + y3_6.toNatClampNeg) (by have := vin_lt g7; have h2 : p0 < 2 := hp0; omega) _ e8) gX8_inserts_X8_copies rfl hdX8_copies ⟨Nat.le_of_ble_eq_true rfl, Nat.le_of_ble_eq_true rfl⟩ (Nat.le_of_ble_eq_true rfl) rfl ⟨Nat.le_of_ble_eq_true rfl, Nat.le_of_ble_eq_true rfl⟩ rfl rfl dX8_inserts_39 (fun s8 hp => ?_)
    have hp := hp.symm
    subst hp
    try dsimp only at h
    exact hret _ _ _ _ _ dX8_inserts_42 (Option.some.inj h).symm (Nat.le_of_ble_eq_true rfl) (Nat.le_of_ble_eq_true rfl)
