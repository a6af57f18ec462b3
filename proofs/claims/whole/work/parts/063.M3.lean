abbrev rmX8_keep : Room := { frames := 3, cells := 0, slots := 0, locals := 67 }
set_option maxRecDepth 20000 in
theorem kX8_keep_X8 : ∀ w ∈ u_ws RX8 TX8 19, w ∈ wsX8_keep := by decide +kernel
set_option maxRecDepth 20000 in
theorem mX8_keep_f34 : Cond.fieldLink RX8 34 "SetCouncilModel" "kept" "[[Z" ∈ wsX8_keep := by decide +kernel
set_option maxRecDepth 20000 in
theorem mX8_keep_f59 : Cond.fieldLink RX8 59 "SetCouncilModel" "keptMany" "I" ∈ wsX8_keep := by decide +kernel
set_option maxRecDepth 20000 in
theorem mX8_keep_f27 : Cond.fieldLink RX8 27 "SetCouncilModel" "sets" "[[Z" ∈ wsX8_keep := by decide +kernel
theorem hdX8_find : yX8_find.cls ≠ "java/lang/invoke/MethodHandle" ∧ yX8_find.cls ≠ "java/lang/invoke/VarHandle" ∧ (parseMethodDescriptor yX8_find.desc).map (fun d => d.parameters.length) = some 3 := by decide +kernel
theorem hdX8_inserts : yX8_inserts.cls ≠ "java/lang/invoke/MethodHandle" ∧ yX8_inserts.cls ≠ "java/lang/invoke/VarHandle" ∧ (parseMethodDescriptor yX8_inserts.desc).map (fun d => d.parameters.length) = some 3 := by decide +kernel
set_option maxHeartbeats 4000000 in
set_option maxRecDepth 100000 in
theorem qX8_keep {E : evT} {l : Launch} {D : va_G} {bd : Nat → Nat} {κ : Nat → ClassId} (hE : EvOk E) (p0 : Int32) (s : mS) {o : (Int32 × mS)} (h : fX8_keep p0 s = some o) : Ci l yX8_keep wsX8_keep rmX8_keep (mW bd κ) E D (tyA κ) .boolean [.ref (bd 67), .int p0] s (fun r s2 => o = (r, s2)) := by
  rw [fX8_keep] at h
  refine s_i (cc := cX8_keep) (nL := 4) (own := RX8) hE (mW_WA bd κ) (plainFor_of_name (by decide)) rfl rfl (Nat.le_of_ble_eq_true rfl) (fun Γ G hret => ?_)
  refine r_iload_n G 1 rfl rfl dX8_keep_0 ?_
  refine r_callSi G [.int p0] (qX8_isSet hE p0 _) gX8_keep_X8_isSet rfl hdX8_isSet ⟨Nat.le_of_ble_eq_true rfl, Nat.le_of_ble_eq_true rfl⟩ (Nat.le_of_ble_eq_true rfl) rfl ⟨Nat.le_of_ble_eq_true rfl, Nat.le_of_ble_eq_true rfl⟩ rfl rfl dX8_keep_1 (fun r1 s1 hp hn1 => ?_)
  obtain ⟨rfl, hs⟩ := hp
  have hs := hs.symm
  subst hs
  refine r_istore_n G (lv' := [(0, .ref (bd 67)), (1, .int p0), (2, .int (fX8_isSet p0 s))]) [1, 2, 0] rfl rfl (by decide) dX8_keep_4 ?_
  refine r_iload_n G 2 rfl rfl dX8_keep_5 ?_
  refine r_if_eq G (tgt := 34) dX8_keep_6 (by decide) (fun c => ?_) (fun c => ?_)
  · rw [if_pos c] at h
    refine r_iconst G (v := 0) (by decide) dX8_keep_34 ?_
    refine r_istore_n G (lv' := [(0, .ref (bd 67)), (1, .int p0), (2, .int (fX8_isSet p0 s)), (3, .int 0)]) [1, 2, 3, 0] rfl rfl (by decide) dX8_keep_35 ?_
    refine r_aload_n G 0 rfl rfl dX8_keep_36 ?_
    refine r_iload_n G 2 rfl rfl dX8_keep_37 ?_
    refine r_iload_n G 3 rfl rfl dX8_keep_38 ?_
    refine r_if_eq G (tgt := 51) dX8_keep_39 (by decide) (fun _ => ?_) (fun c => absurd (by decide) c)
    refine r_iconst G (v := 1) (by decide) dX8_keep_51 ?_
    refine r_goto G (tgt := 56) dX8_keep_52 (by decide) ?_
    obtain ⟨o2, e2, h⟩ := ob h
    refine r_callVi G [.int (fX8_isSet p0 s), .int 1] (qX8_passes hE (fX8_isSet p0 s) (1 : Int32) _ e2) ⟨67, 8, _, _, rfl, (mw_MO bd κ _), rfl⟩ gX8_keep_X8_passes rfl hdX8_passes ⟨Nat.le_of_ble_eq_true rfl, Nat.le_of_ble_eq_true rfl⟩ (Nat.le_of_ble_eq_true rfl) rfl ⟨Nat.le_of_ble_eq_true rfl, Nat.le_of_ble_eq_true rfl⟩ rfl rfl dX8_keep_56 (fun r2 s2 hp hn2 => ?_)
    subst hp
    try dsimp only at h
    refine r_if_ne G (tgt := 64) dX8_keep_59 (by decide) (fun c => ?_) (fun c => ?_)
    · rw [if_neg c] at h
      refine r_iload_n G 3 rfl rfl dX8_keep_64 ?_
      refine r_if_eq G (tgt := 95) dX8_keep_65 (by decide) (fun _ => ?_) (fun c => absurd (by decide) c)
      refine r_iload_n G 3 rfl rfl dX8_keep_95 ?_
      exact hret _ _ _ _ _ _ dX8_keep_96 (Option.some.inj h).symm rfl (Nat.le_of_ble_eq_true rfl) (Nat.le_of_ble_eq_true rfl)
    · rw [if_pos c] at h
      refine r_iconst G (v := 0) (by decide) dX8_keep_62 ?_
      exact hret _ _ _ _ _ _ dX8_keep_63 (Option.some.inj h).symm rfl (Nat.le_of_ble_eq_true rfl) (Nat.le_of_ble_eq_true rfl)
  · rw [if_neg c] at h
    refine r_aload_n G 0 rfl rfl dX8_keep_9 ?_
    refine r_get G (C := RX8) (T := TX8) (N := 19) kX8_keep_X8 67 (mw_MO bd κ _) rfl 3 (by decide) mX8_keep_f34 rfl rfl dX8_keep_10 ?_
    refine r_aload_n G 0 rfl rfl dX8_keep_13 ?_
    refine r_get G (C := RX8) (T := TX8) (N := 19) kX8_keep_X8 67 (mw_MO bd κ _) rfl 5 (by decide) mX8_keep_f59 rfl rfl dX8_keep_14 ?_
    refine r_aload_n G 0 rfl rfl dX8_keep_17 ?_
    refine r_get G (C := RX8) (T := TX8) (N := 19) kX8_keep_X8 67 (mw_MO bd κ _) rfl 1 (by decide) mX8_keep_f27 rfl rfl dX8_keep_18 ?_
    refine r_iload_n G 1 rfl rfl dX8_keep_21 ?_
    obtain ⟨g3, h⟩ := og h
    refine r_aldA G 68 5 (mw_SETSG bd κ _) rfl (vin_in g3) rfl dX8_keep_22 ?_
    obtain ⟨o4, e4, h⟩ := ob h
    refine r_callSi G [.ref (bd (69 + 0)), .int (mI s 1), .ref (bd p0.toNatClampNeg)] (qX8_find hE 0 (by decide) (mI s 1) p0.toNatClampNeg (by have := vin_lt g3; omega) _ e4) gX8_keep_X8_find rfl hdX8_find ⟨Nat.le_of_ble_eq_true rfl, Nat.le_of_ble_eq_true rfl⟩ (Nat.le_of_ble_eq_true rfl) rfl ⟨Nat.le_of_ble_eq_true rfl, Nat.le_of_ble_eq_true rfl⟩ rfl rfl dX8_keep_23 (fun r4 s4 hp hn4 => ?_)
    subst hp
    try dsimp only at h
    refine r_iconst G (v := (-1)) (by decide) dX8_keep_26 ?_
    refine r_icmp_ne G (tgt := 34) dX8_keep_27 (by decide) (fun c => ?_) (fun c => ?_)
    · rw [if_neg c] at h
      refine r_iconst G (v := 0) (by decide) dX8_keep_34 ?_
      refine r_istore_n G (lv' := [(0, .ref (bd 67)), (1, .int p0), (2, .int (fX8_isSet p0 s)), (3, .int 0)]) [1, 2, 3, 0] rfl rfl (by decide) dX8_keep_35 ?_
      refine r_aload_n G 0 rfl rfl dX8_keep_36 ?_
      refine r_iload_n G 2 rfl rfl dX8_keep_37 ?_
      refine r_iload_n G 3 rfl rfl dX8_keep_38 ?_
      refine r_if_eq G (tgt := 51) dX8_keep_39 (by decide) (fun _ => ?_) (fun c => absurd (by decide) c)
      refine r_iconst G (v := 1) (by decide) dX8_keep_51 ?_
      refine r_goto G (tgt := 56) dX8_keep_52 (by decide) ?_
      obtain ⟨o5, e5, h⟩ := ob h
      refine r_callVi G [.int (fX8_isSet p0 s), .int 1] (qX8_passes hE (fX8_isSet p0 s) (1 : Int32) _ e5) ⟨67, 8, _, _, rfl, (mw_MO bd κ _), rfl⟩ gX8_keep_X8_passes rfl hdX8_passes ⟨Nat.le_of_ble_eq_true rfl, Nat.le_of_ble_eq_true rfl⟩ (Nat.le_of_ble_eq_true rfl) rfl ⟨Nat.le_of_ble_eq_true rfl, Nat.le_of_ble_eq_true rfl⟩ rfl rfl dX8_keep_56 (fun r5 s5 hp hn5 => ?_)
      subst hp
      try dsimp only at h
      refine r_if_ne G (tgt := 64) dX8_keep_59 (by decide) (fun c => ?_) (fun c => ?_)
      · rw [if_neg c] at h
        refine r_iload_n G 3 rfl rfl dX8_keep_64 ?_
        refine r_if_eq G (tgt := 95) dX8_keep_65 (by decide) (fun _ => ?_) (fun c => absurd (by decide) c)
        refine r_iload_n G 3 rfl rfl dX8_keep_95 ?_
        exact hret _ _ _ _ _ _ dX8_keep_96 (Option.some.inj h).symm rfl (Nat.le_of_ble_eq_true rfl) (Nat.le_of_ble_eq_true rfl)
      · rw [if_pos c] at h
        refine r_iconst G (v := 0) (by decide) dX8_keep_62 ?_
        exact hret _ _ _ _ _ _ dX8_keep_63 (Option.some.inj h).symm rfl (Nat.le_of_ble_eq_true rfl) (Nat.le_of_ble_eq_true rfl)
    · rw [if_pos c] at h
      refine r_iconst G (v := 1) (by decide) dX8_keep_30 ?_
      refine r_goto G (tgt := 35) dX8_keep_31 (by decide) ?_
      refine r_istore_n G (lv' := [(0, .ref (bd 67)), (1, .int p0), (2, .int (fX8_isSet p0 s)), (3, .int 1)]) [1, 2, 3, 0] rfl rfl (by decide) dX8_keep_35 ?_
      refine r_aload_n G 0 rfl rfl dX8_keep_36 ?_
      refine r_iload_n G 2 rfl rfl dX8_keep_37 ?_
      refine r_iload_n G 3 rfl rfl dX8_keep_38 ?_
      refine r_if_eq G (tgt := 51) dX8_keep_39 (by decide) (fun c => absurd c (by decide)) (fun _ => ?_)
      refine r_aload_n G 0 rfl rfl dX8_keep_42 ?_
      refine r_get G (C := RX8) (T := TX8) (N := 19) kX8_keep_X8 67 (mw_MO bd κ _) rfl 5 (by decide) mX8_keep_f59 rfl rfl dX8_keep_43 ?_
      refine r_bipush G (v := 7) (by decide) dX8_keep_46 ?_
      refine r_icmp_ge G (tgt := 55) dX8_keep_48 (by decide) (fun c => ?_) (fun c => ?_)
      · rw [if_pos c] at h
        refine r_iconst G (v := 0) (by decide) dX8_keep_55 ?_
        obtain ⟨o6, e6, h⟩ := ob h
        refine r_callVi G [.int (fX8_isSet p0 s), .int 0] (qX8_passes hE (fX8_isSet p0 s) (0 : Int32) _ e6) ⟨67, 8, _, _, rfl, (mw_MO bd κ _), rfl⟩ gX8_keep_X8_passes rfl hdX8_passes ⟨Nat.le_of_ble_eq_true rfl, Nat.le_of_ble_eq_true rfl⟩ (Nat.le_of_ble_eq_true rfl) rfl ⟨Nat.le_of_ble_eq_true rfl, Nat.le_of_ble_eq_true rfl⟩ rfl rfl dX8_keep_56 (fun r6 s6 hp hn6 => ?_)
        subst hp
        try dsimp only at h
        refine r_if_ne G (tgt := 64) dX8_keep_59 (by decide) (fun c => ?_) (fun c => ?_)
        · rw [if_neg c] at h
          refine r_iload_n G 3 rfl rfl dX8_keep_64 ?_
          refine r_if_eq G (tgt := 95) dX8_keep_65 (by decide) (fun c => absurd c (by decide)) (fun _ => ?_)
          refine r_aload_n G 0 rfl rfl dX8_keep_68 ?_
          refine r_get G (C := RX8) (T := TX8) (N := 19) kX8_keep_X8 67 (mw_MO bd κ _) rfl 3 (by decide) mX8_keep_f34 rfl rfl dX8_keep_69 ?_
          refine r_aload_n G 0 rfl rfl dX8_keep_72 ?_
          refine r_get G (C := RX8) (T := TX8) (N := 19) kX8_keep_X8 67 (mw_MO bd κ _) rfl 5 (by decide) mX8_keep_f59 rfl rfl dX8_keep_73 ?_
          refine r_aload_n G 0 rfl rfl dX8_keep_76 ?_
          refine r_get G (C := RX8) (T := TX8) (N := 19) kX8_keep_X8 67 (mw_MO bd κ _) rfl 1 (by decide) mX8_keep_f27 rfl rfl dX8_keep_77 ?_
          refine r_iload_n G 1 rfl rfl dX8_keep_80 ?_
          obtain ⟨g7, h⟩ := og h
          refine r_aldA G 68 5 (mw_SETSG bd κ _) rfl (vin_in g7) rfl dX8_keep_81 ?_
          obtain ⟨o8, e8, h⟩ := ob h
          refine r_callSv G [.ref (bd (69 + 0)), .int (mI s6 1), .ref (bd p0.toNatClampNeg)] (qX8_inserts hE 0 (by decide) (mI s6 1) p0.toNatClampNeg (by have := vin_lt g7; omega) _ e8) gX8_keep_X8_inserts rfl hdX8_inserts ⟨Nat.le_of_ble_eq_true rfl, Nat.le_of_ble_eq_true rfl⟩ (Nat.le_of_ble_eq_true rfl) rfl ⟨Nat.le_of_ble_eq_true rfl, Nat.le_of_ble_eq_true rfl⟩ rfl rfl dX8_keep_82 (fun s8 hp => ?_)
          have hp := hp.symm
          subst hp
          try dsimp only at h
          refine r_aload_n G 0 rfl rfl dX8_keep_85 ?_
          refine r_dup G rfl dX8_keep_86 ?_
          refine r_get G (C := RX8) (T := TX8) (N := 19) kX8_keep_X8 67 (mw_MO bd κ _) rfl 5 (by decide) mX8_keep_f59 rfl rfl dX8_keep_87 ?_
          refine r_iconst G (v := 1) (by decide) dX8_keep_90 ?_
          refine r_iadd G dX8_keep_91 ?_
          refine r_put G (C := RX8) (T := TX8) (N := 19) kX8_keep_X8 tyX8 tyX8_ok nmX8 67 (mw_MO bd κ _) rfl 5 (by decide) mX8_keep_f59 rfl rfl (tyX8_ok 5 (by decide)) rfl rfl (Nat.le_of_ble_eq_true rfl) (mu_keptMany bd κ _ _) dX8_keep_92 ?_
          refine r_iload_n G 3 rfl rfl dX8_keep_95 ?_
          exact hret _ _ _ _ _ _ dX8_keep_96 (Option.some.inj h).symm rfl (Nat.le_of_ble_eq_true rfl) (Nat.le_of_ble_eq_true rfl)
        · rw [if_pos c] at h
          refine r_iconst G (v := 0) (by decide) dX8_keep_62 ?_
          exact hret _ _ _ _ _ _ dX8_keep_63 (Option.some.inj h).symm rfl (Nat.le_of_ble_eq_true rfl) (Nat.le_of_ble_eq_true rfl)
      · rw [if_neg c] at h
        refine r_iconst G (v := 1) (by decide) dX8_keep_51 ?_
        refine r_goto G (tgt := 56) dX8_keep_52 (by decide) ?_
        obtain ⟨o9, e9, h⟩ := ob h
        refine r_callVi G [.int (fX8_isSet p0 s), .int 1] (qX8_passes hE (fX8_isSet p0 s) (1 : Int32) _ e9) ⟨67, 8, _, _, rfl, (mw_MO bd κ _), rfl⟩ gX8_keep_X8_passes rfl hdX8_passes ⟨Nat.le_of_ble_eq_true rfl, Nat.le_of_ble_eq_true rfl⟩ (Nat.le_of_ble_eq_true rfl) rfl ⟨Nat.le_of_ble_eq_true rfl, Nat.le_of_ble_eq_true rfl⟩ rfl rfl dX8_keep_56 (fun r9 s9 hp hn9 => ?_)
        subst hp
        try dsimp only at h
        refine r_if_ne G (tgt := 64) dX8_keep_59 (by decide) (fun c => ?_) (fun c => ?_)
        · rw [if_neg c] at h
          refine r_iload_n G 3 rfl rfl dX8_keep_64 ?_
          refine r_if_eq G (tgt := 95) dX8_keep_65 (by decide) (fun c => absurd c (by decide)) (fun _ => ?_)
          refine r_aload_n G 0 rfl rfl dX8_keep_68 ?_
          refine r_get G (C := RX8) (T := TX8) (N := 19) kX8_keep_X8 67 (mw_MO bd κ _) rfl 3 (by decide) mX8_keep_f34 rfl rfl dX8_keep_69 ?_
          refine r_aload_n G 0 rfl rfl dX8_keep_72 ?_
          refine r_get G (C := RX8) (T := TX8) (N := 19) kX8_keep_X8 67 (mw_MO bd κ _) rfl 5 (by decide) mX8_keep_f59 rfl rfl dX8_keep_73 ?_
          refine r_aload_n G 0 rfl rfl dX8_keep_76 ?_
          refine r_get G (C := RX8) (T := TX8) (N := 19) kX8_keep_X8 67 (mw_MO bd κ _) rfl 1 (by decide) mX8_keep_f27 rfl rfl dX8_keep_77 ?_
          refine r_iload_n G 1 rfl rfl dX8_keep_80 ?_
          obtain ⟨g10, h⟩ := og h
          refine r_aldA G 68 5 (mw_SETSG bd κ _) rfl (vin_in g10) rfl dX8_keep_81 ?_
          obtain ⟨o11, e11, h⟩ := ob h
          refine r_callSv G [.ref (bd (69 + 0)), .int (mI s9 1), .ref (bd p0.toNatClampNeg)] (qX8_inserts hE 0 (by decide) (mI s9 1) p0.toNatClampNeg (by have := vin_lt g10; omega) _ e11) gX8_keep_X8_inserts rfl hdX8_inserts ⟨Nat.le_of_ble_eq_true rfl, Nat.le_of_ble_eq_true rfl⟩ (Nat.le_of_ble_eq_true rfl) rfl ⟨Nat.le_of_ble_eq_true rfl, Nat.le_of_ble_eq_true rfl⟩ rfl rfl dX8_keep_82 (fun s11 hp => ?_)
          have hp := hp.symm
          subst hp
          try dsimp only at h
          refine r_aload_n G 0 rfl rfl dX8_keep_85 ?_
          refine r_dup G rfl dX8_keep_86 ?_
          refine r_get G (C := RX8) (T := TX8) (N := 19) kX8_keep_X8 67 (mw_MO bd κ _) rfl 5 (by decide) mX8_keep_f59 rfl rfl dX8_keep_87 ?_
          refine r_iconst G (v := 1) (by decide) dX8_keep_90 ?_
          refine r_iadd G dX8_keep_91 ?_
          refine r_put G (C := RX8) (T := TX8) (N := 19) kX8_keep_X8 tyX8 tyX8_ok nmX8 67 (mw_MO bd κ _) rfl 5 (by decide) mX8_keep_f59 rfl rfl (tyX8_ok 5 (by decide)) rfl rfl (Nat.le_of_ble_eq_true rfl) (mu_keptMany bd κ _ _) dX8_keep_92 ?_
          refine r_iload_n G 3 rfl rfl dX8_keep_95 ?_
          exact hret _ _ _ _ _ _ dX8_keep_96 (Option.some.inj h).symm rfl (Nat.le_of_ble_eq_true rfl) (Nat.le_of_ble_eq_true rfl)
        · rw [if_pos c] at h
          refine r_iconst G (v := 0) (by decide) dX8_keep_62 ?_
          exact hret _ _ _ _ _ _ dX8_keep_63 (Option.some.inj h).symm rfl (Nat.le_of_ble_eq_true rfl) (Nat.le_of_ble_eq_true rfl)
abbrev rmX8_drop : Room := { frames := 3, cells := 0, slots := 0, locals := 66 }
set_option maxRecDepth 20000 in
theorem kX8_drop_X8 : ∀ w ∈ u_ws RX8 TX8 19, w ∈ wsX8_drop := by decide +kernel
set_option maxRecDepth 20000 in
theorem mX8_drop_f34 : Cond.fieldLink RX8 34 "SetCouncilModel" "kept" "[[Z" ∈ wsX8_drop := by decide +kernel
set_option maxRecDepth 20000 in
theorem mX8_drop_f59 : Cond.fieldLink RX8 59 "SetCouncilModel" "keptMany" "I" ∈ wsX8_drop := by decide +kernel
set_option maxRecDepth 20000 in
theorem mX8_drop_f27 : Cond.fieldLink RX8 27 "SetCouncilModel" "sets" "[[Z" ∈ wsX8_drop := by decide +kernel
set_option maxHeartbeats 4000000 in
set_option maxRecDepth 100000 in
theorem wX8_drop_L51 {E : evT} {l : Launch} {D : va_G} {bd : Nat → Nat} {κ : Nat → ClassId} (hE : EvOk E) {Γ : cxT} (G : Cx (mW bd κ) D (tyA κ) E l Γ cX8_drop RX8 wsX8_drop 4 rmX8_drop) {o : (Int32 × mS)} (hret : ∀ (st2 : mS) (v : Int32) (cells slots pc : Nat) (lv : List (Nat × Value)), decode cX8_drop pc = .ok (.ireturn, 1) → o = (v, st2) → narrow .boolean (.int v) = .int v → cells ≤ rmX8_drop.cells → slots ≤ rmX8_drop.slots → V (mW bd κ) D Γ st2 cells slots pc lv [.int v]) : ∀ (fuel : Nat) (x3 : Int32) (s : mS), fX8_drop_L51 fuel x3 s = some o → V (mW bd κ) D Γ s 0 0 51 [(0, .ref (bd 67)), (3, .int x3)] [] := by
  intro fuel
  induction fuel with
  | zero =>
    intro _ _ h
    have h : none = some o := h
    cases h
  | succ fuel ih =>
    intro x3 s h
    rw [fX8_drop_L51] at h
    refine r_iload_n G 1 rfl rfl dX8_drop_51 ?_
    refine r_aload_n G 0 rfl rfl dX8_drop_52 ?_
    refine r_get G (C := RX8) (T := TX8) (N := 19) kX8_drop_X8 67 (mw_MO bd κ _) rfl 5 (by decide) mX8_drop_f59 rfl rfl dX8_drop_53 ?_
    refine r_icmp_ge G (tgt := 82) dX8_drop_56 (by decide) (fun c => ?_) (fun c => ?_)
    · rw [if_pos c] at h
      refine r_iconst G (v := 1) (by decide) dX8_drop_82 ?_
      exact hret _ _ _ _ _ _ dX8_drop_83 (Option.some.inj h).symm rfl (Nat.le_of_ble_eq_true rfl) (Nat.le_of_ble_eq_true rfl)
    · rw [if_neg c] at h
      refine r_aload_n G 0 rfl rfl dX8_drop_59 ?_
      refine r_get G (C := RX8) (T := TX8) (N := 19) kX8_drop_X8 67 (mw_MO bd κ _) rfl 3 (by decide) mX8_drop_f34 rfl rfl dX8_drop_60 ?_
      refine r_iload_n G 1 rfl rfl dX8_drop_63 ?_
      refine r_iconst G (v := 1) (by decide) dX8_drop_64 ?_
      refine r_iadd G dX8_drop_65 ?_
      obtain ⟨g5, h⟩ := og h
      refine r_aldA G (69 + 0) 5 (mw_GRID bd κ _ (by decide)) rfl (vin_in g5) rfl dX8_drop_66 ?_
      refine r_aload_n G 0 rfl rfl dX8_drop_67 ?_
      refine r_get G (C := RX8) (T := TX8) (N := 19) kX8_drop_X8 67 (mw_MO bd κ _) rfl 3 (by decide) mX8_drop_f34 rfl rfl dX8_drop_68 ?_
      refine r_iload_n G 1 rfl rfl dX8_drop_71 ?_
      obtain ⟨g6, h⟩ := og h
      refine r_aldA G (69 + 0) 5 (mw_GRID bd κ _ (by decide)) rfl (vin_in g6) rfl dX8_drop_72 ?_
      obtain ⟨o7, e7, h⟩ := ob h
      refine r_callSv G [.ref (bd (9 + 7 * 0 + (x3 + 1).toNatClampNeg)), .ref (bd (9 + 7 * 0 + x3.toNatClampNeg))] (qX8_copies hE (9 + 7 * 0 + (x3 + 1).toNatClampNeg) (by have := vin_lt g5; have h2 : 0 < 2 := (by decide); omega) (9 + 7 * 0 + x3.toNatClampNeg) (by have := vin_lt g6; have h2 : 0 < 2 := (by decide); omega) _ e7) gX8_drop_X8_copies rfl hdX8_copies ⟨Nat.le_of_ble_eq_true rfl, Nat.le_of_ble_eq_true rfl⟩ (Nat.le_of_ble_eq_true rfl) rfl ⟨Nat.le_of_ble_eq_true rfl, Nat.le_of_ble_eq_true rfl⟩ rfl rfl dX8_drop_73 (fun s7 hp => ?_)
      have hp := hp.symm
      subst hp
      try dsimp only at h
      refine r_iinc G (j := 1) rfl (v := x3 + 1) (lv' := [(0, .ref (bd 67)), (3, .int (x3 + 1))]) rfl [1, 0] rfl (by decide) dX8_drop_76 ?_
      refine r_goto G (tgt := 51) dX8_drop_79 (by decide) ?_
      exact ih _ _ h
set_option maxHeartbeats 4000000 in
set_option maxRecDepth 100000 in
theorem qX8_drop {E : evT} {l : Launch} {D : va_G} {bd : Nat → Nat} {κ : Nat → ClassId} (hE : EvOk E) (p0 : Int32) (s : mS) {o : (Int32 × mS)} (h : fX8_drop p0 s = some o) : Ci l yX8_drop wsX8_drop rmX8_drop (mW bd κ) E D (tyA κ) .boolean [.ref (bd 67), .int p0] s (fun r s2 => o = (r, s2)) := by
  rw [fX8_drop] at h
  refine s_i (cc := cX8_drop) (nL := 4) (own := RX8) hE (mW_WA bd κ) (plainFor_of_name (by decide)) rfl rfl (Nat.le_of_ble_eq_true rfl) (fun Γ G hret => ?_)
  refine r_aload_n G 0 rfl rfl dX8_drop_0 ?_
  refine r_iload_n G 1 rfl rfl dX8_drop_1 ?_
  refine r_callSi G [.int p0] (qX8_isSet hE p0 _) gX8_drop_X8_isSet rfl hdX8_isSet ⟨Nat.le_of_ble_eq_true rfl, Nat.le_of_ble_eq_true rfl⟩ (Nat.le_of_ble_eq_true rfl) rfl ⟨Nat.le_of_ble_eq_true rfl, Nat.le_of_ble_eq_true rfl⟩ rfl rfl dX8_drop_2 (fun r1 s1 hp hn1 => ?_)
  obtain ⟨rfl, hs⟩ := hp
  have hs := hs.symm
  subst hs
  refine r_iconst G (v := 1) (by decide) dX8_drop_5 ?_
  obtain ⟨o2, e2, h⟩ := ob h
  refine r_callVi G [.int (fX8_isSet p0 s), .int 1] (qX8_passes hE (fX8_isSet p0 s) (1 : Int32) _ e2) ⟨67, 8, _, _, rfl, (mw_MO bd κ _), rfl⟩ gX8_drop_X8_passes rfl hdX8_passes ⟨Nat.le_of_ble_eq_true rfl, Nat.le_of_ble_eq_true rfl⟩ (Nat.le_of_ble_eq_true rfl) rfl ⟨Nat.le_of_ble_eq_true rfl, Nat.le_of_ble_eq_true rfl⟩ rfl rfl dX8_drop_6 (fun r2 s2 hp hn2 => ?_)
  subst hp
  try dsimp only at h
  refine r_if_ne G (tgt := 14) dX8_drop_9 (by decide) (fun c => ?_) (fun c => ?_)
  · rw [if_neg c] at h
    refine r_aload_n G 0 rfl rfl dX8_drop_14 ?_
    refine r_get G (C := RX8) (T := TX8) (N := 19) kX8_drop_X8 67 (mw_MO bd κ _) rfl 3 (by decide) mX8_drop_f34 rfl rfl dX8_drop_15 ?_
    refine r_aload_n G 0 rfl rfl dX8_drop_18 ?_
    refine r_get G (C := RX8) (T := TX8) (N := 19) kX8_drop_X8 67 (mw_MO bd κ _) rfl 5 (by decide) mX8_drop_f59 rfl rfl dX8_drop_19 ?_
    refine r_aload_n G 0 rfl rfl dX8_drop_22 ?_
    refine r_get G (C := RX8) (T := TX8) (N := 19) kX8_drop_X8 67 (mw_MO bd κ _) rfl 1 (by decide) mX8_drop_f27 rfl rfl dX8_drop_23 ?_
    refine r_iload_n G 1 rfl rfl dX8_drop_26 ?_
    obtain ⟨g3, h⟩ := og h
    refine r_aldA G 68 5 (mw_SETSG bd κ _) rfl (vin_in g3) rfl dX8_drop_27 ?_
    obtain ⟨o4, e4, h⟩ := ob h
    refine r_callSi G [.ref (bd (69 + 0)), .int (mI s2 1), .ref (bd p0.toNatClampNeg)] (qX8_find hE 0 (by decide) (mI s2 1) p0.toNatClampNeg (by have := vin_lt g3; omega) _ e4) gX8_drop_X8_find rfl hdX8_find ⟨Nat.le_of_ble_eq_true rfl, Nat.le_of_ble_eq_true rfl⟩ (Nat.le_of_ble_eq_true rfl) rfl ⟨Nat.le_of_ble_eq_true rfl, Nat.le_of_ble_eq_true rfl⟩ rfl rfl dX8_drop_28 (fun r4 s4 hp hn4 => ?_)
    subst hp
    try dsimp only at h
    refine r_istore_n G (lv' := [(0, .ref (bd 67)), (2, .int r4)]) [1, 0] rfl rfl (by decide) dX8_drop_31 ?_
    refine r_iload_n G 1 rfl rfl dX8_drop_32 ?_
    refine r_iconst G (v := (-1)) (by decide) dX8_drop_33 ?_
    refine r_icmp_ne G (tgt := 39) dX8_drop_34 (by decide) (fun c => ?_) (fun c => ?_)
    · rw [if_neg c] at h
      refine r_aload_n G 0 rfl rfl dX8_drop_39 ?_
      refine r_dup G rfl dX8_drop_40 ?_
      refine r_get G (C := RX8) (T := TX8) (N := 19) kX8_drop_X8 67 (mw_MO bd κ _) rfl 5 (by decide) mX8_drop_f59 rfl rfl dX8_drop_41 ?_
      refine r_iconst G (v := 1) (by decide) dX8_drop_44 ?_
      refine r_isub G dX8_drop_45 ?_
      refine r_put G (C := RX8) (T := TX8) (N := 19) kX8_drop_X8 tyX8 tyX8_ok nmX8 67 (mw_MO bd κ _) rfl 5 (by decide) mX8_drop_f59 rfl rfl (tyX8_ok 5 (by decide)) rfl rfl (Nat.le_of_ble_eq_true rfl) (mu_keptMany bd κ _ _) dX8_drop_46 ?_
      refine r_iload_n G 1 rfl rfl dX8_drop_49 ?_
      refine r_istore_n G (lv' := [(0, .ref (bd 67)), (3, .int r4)]) [1, 0] rfl rfl (by decide) dX8_drop_50 ?_
      refine wX8_drop_L51 hE G hret 1100 _ _ h
    · rw [if_pos c] at h
      refine r_iconst G (v := 0) (by decide) dX8_drop_37 ?_
      exact hret _ _ _ _ _ _ dX8_drop_38 (Option.some.inj h).symm rfl (Nat.le_of_ble_eq_true rfl) (Nat.le_of_ble_eq_true rfl)
  · rw [if_pos c] at h
    refine r_iconst G (v := 0) (by decide) dX8_drop_12 ?_
    exact hret _ _ _ _ _ _ dX8_drop_13 (Option.some.inj h).symm rfl (Nat.le_of_ble_eq_true rfl) (Nat.le_of_ble_eq_true rfl)
abbrev rmX8_isKept : Room := { frames := 3, cells := 0, slots := 0, locals := 66 }
set_option maxRecDepth 20000 in
theorem kX8_isKept_X8 : ∀ w ∈ u_ws RX8 TX8 19, w ∈ wsX8_isKept := by decide +kernel
set_option maxRecDepth 20000 in
theorem mX8_isKept_f34 : Cond.fieldLink RX8 34 "SetCouncilModel" "kept" "[[Z" ∈ wsX8_isKept := by decide +kernel
set_option maxRecDepth 20000 in
theorem mX8_isKept_f59 : Cond.fieldLink RX8 59 "SetCouncilModel" "keptMany" "I" ∈ wsX8_isKept := by decide +kernel
set_option maxRecDepth 20000 in
theorem mX8_isKept_f27 : Cond.fieldLink RX8 27 "SetCouncilModel" "sets" "[[Z" ∈ wsX8_isKept := by decide +kernel
set_option maxHeartbeats 4000000 in
set_option maxRecDepth 100000 in
theorem qX8_isKept {E : evT} {l : Launch} {D : va_G} {bd : Nat → Nat} {κ : Nat → ClassId} (hE : EvOk E) (p0 : Int32) (s : mS) {o : (Int32 × mS)} (h : fX8_isKept p0 s = some o) : Ci l yX8_isKept wsX8_isKept rmX8_isKept (mW bd κ) E D (tyA κ) .boolean [.ref (bd 67), .int p0] s (fun r s2 => o = (r, s2)) := by
  rw [fX8_isKept] at h
  refine s_i (cc := cX8_isKept) (nL := 2) (own := RX8) hE (mW_WA bd κ) (plainFor_of_name (by decide)) rfl rfl (Nat.le_of_ble_eq_true rfl) (fun Γ G hret => ?_)
  refine r_aload_n G 0 rfl rfl dX8_isKept_0 ?_
  refine r_iload_n G 1 rfl rfl dX8_isKept_1 ?_
  refine r_callSi G [.int p0] (qX8_isSet hE p0 _) gX8_isKept_X8_isSet rfl hdX8_isSet ⟨Nat.le_of_ble_eq_true rfl, Nat.le_of_ble_eq_true rfl⟩ (Nat.le_of_ble_eq_true rfl) rfl ⟨Nat.le_of_ble_eq_true rfl, Nat.le_of_ble_eq_true rfl⟩ rfl rfl dX8_isKept_2 (fun r1 s1 hp hn1 => ?_)
  obtain ⟨rfl, hs⟩ := hp
  have hs := hs.symm
  subst hs
  refine r_iconst G (v := 1) (by decide) dX8_isKept_5 ?_
  obtain ⟨o2, e2, h⟩ := ob h
  refine r_callVi G [.int (fX8_isSet p0 s), .int 1] (qX8_passes hE (fX8_isSet p0 s) (1 : Int32) _ e2) ⟨67, 8, _, _, rfl, (mw_MO bd κ _), rfl⟩ gX8_isKept_X8_passes rfl hdX8_passes ⟨Nat.le_of_ble_eq_true rfl, Nat.le_of_ble_eq_true rfl⟩ (Nat.le_of_ble_eq_true rfl) rfl ⟨Nat.le_of_ble_eq_true rfl, Nat.le_of_ble_eq_true rfl⟩ rfl rfl dX8_isKept_6 (fun r2 s2 hp hn2 => ?_)
  subst hp
  try dsimp only at h
  refine r_if_eq G (tgt := 37) dX8_isKept_9 (by decide) (fun c => ?_) (fun c => ?_)
  · rw [if_pos c] at h
    refine r_iconst G (v := 0) (by decide) dX8_isKept_37 ?_
    exact hret _ _ _ _ _ _ dX8_isKept_38 (Option.some.inj h).symm rfl (Nat.le_of_ble_eq_true rfl) (Nat.le_of_ble_eq_true rfl)
  · rw [if_neg c] at h
    refine r_aload_n G 0 rfl rfl dX8_isKept_12 ?_
    refine r_get G (C := RX8) (T := TX8) (N := 19) kX8_isKept_X8 67 (mw_MO bd κ _) rfl 3 (by decide) mX8_isKept_f34 rfl rfl dX8_isKept_13 ?_
    refine r_aload_n G 0 rfl rfl dX8_isKept_16 ?_
    refine r_get G (C := RX8) (T := TX8) (N := 19) kX8_isKept_X8 67 (mw_MO bd κ _) rfl 5 (by decide) mX8_isKept_f59 rfl rfl dX8_isKept_17 ?_
    refine r_aload_n G 0 rfl rfl dX8_isKept_20 ?_
    refine r_get G (C := RX8) (T := TX8) (N := 19) kX8_isKept_X8 67 (mw_MO bd κ _) rfl 1 (by decide) mX8_isKept_f27 rfl rfl dX8_isKept_21 ?_
    refine r_iload_n G 1 rfl rfl dX8_isKept_24 ?_
    obtain ⟨g3, h⟩ := og h
    refine r_aldA G 68 5 (mw_SETSG bd κ _) rfl (vin_in g3) rfl dX8_isKept_25 ?_
    obtain ⟨o4, e4, h⟩ := ob h
    refine r_callSi G [.ref (bd (69 + 0)), .int (mI s2 1), .ref (bd p0.toNatClampNeg)] (qX8_find hE 0 (by decide) (mI s2 1) p0.toNatClampNeg (by have := vin_lt g3; omega) _ e4) gX8_isKept_X8_find rfl hdX8_find ⟨Nat.le_of_ble_eq_true rfl, Nat.le_of_ble_eq_true rfl⟩ (Nat.le_of_ble_eq_true rfl) rfl ⟨Nat.le_of_ble_eq_true rfl, Nat.le_of_ble_eq_true rfl⟩ rfl rfl dX8_isKept_26 (fun r4 s4 hp hn4 => ?_)
    subst hp
    try dsimp only at h
    refine r_iconst G (v := (-1)) (by decide) dX8_isKept_29 ?_
    refine r_icmp_eq G (tgt := 37) dX8_isKept_30 (by decide) (fun c => ?_) (fun c => ?_)
    · rw [if_pos c] at h
      refine r_iconst G (v := 0) (by decide) dX8_isKept_37 ?_
      exact hret _ _ _ _ _ _ dX8_isKept_38 (Option.some.inj h).symm rfl (Nat.le_of_ble_eq_true rfl) (Nat.le_of_ble_eq_true rfl)
    · rw [if_neg c] at h
      refine r_iconst G (v := 1) (by decide) dX8_isKept_33 ?_
      refine r_goto G (tgt := 38) dX8_isKept_34 (by decide) ?_
      exact hret _ _ _ _ _ _ dX8_isKept_38 (Option.some.inj h).symm rfl (Nat.le_of_ble_eq_true rfl) (Nat.le_of_ble_eq_true rfl)
abbrev rmX8_kept : Room := { frames := 0, cells := 0, slots := 0, locals := 0 }
set_option maxRecDepth 20000 in
theorem kX8_kept_X8 : ∀ w ∈ u_ws RX8 TX8 19, w ∈ wsX8_kept := by decide +kernel
set_option maxRecDepth 20000 in
theorem mX8_kept_f3 : Cond.fieldLink RX8 3 "SetCouncilModel" "thrown" "I" ∈ wsX8_kept := by decide +kernel
set_option maxRecDepth 20000 in
theorem mX8_kept_f59 : Cond.fieldLink RX8 59 "SetCouncilModel" "keptMany" "I" ∈ wsX8_kept := by decide +kernel
set_option maxHeartbeats 4000000 in
set_option maxRecDepth 100000 in
theorem qX8_kept {E : evT} {l : Launch} {D : va_G} {bd : Nat → Nat} {κ : Nat → ClassId} (hE : EvOk E) (s : mS) {o : (Int32 × mS)} (h : fX8_kept s = some o) : Ci l yX8_kept wsX8_kept rmX8_kept (mW bd κ) E D (tyA κ) .int [.ref (bd 67)] s (fun r s2 => o = (r, s2)) := by
  rw [fX8_kept] at h
  refine s_i (cc := cX8_kept) (nL := 1) (own := RX8) hE (mW_WA bd κ) (plainFor_of_name (by decide)) rfl rfl (Nat.le_of_ble_eq_true rfl) (fun Γ G hret => ?_)
  refine r_aload_n G 0 rfl rfl dX8_kept_0 ?_
  refine r_iconst G (v := 0) (by decide) dX8_kept_1 ?_
  refine r_put G (C := RX8) (T := TX8) (N := 19) kX8_kept_X8 tyX8 tyX8_ok nmX8 67 (mw_MO bd κ _) rfl 0 (by decide) mX8_kept_f3 rfl rfl (tyX8_ok 0 (by decide)) rfl rfl (Nat.le_of_ble_eq_true rfl) (mu_thrown bd κ _ _) dX8_kept_2 ?_
  refine r_aload_n G 0 rfl rfl dX8_kept_5 ?_
  refine r_get G (C := RX8) (T := TX8) (N := 19) kX8_kept_X8 67 (mw_MO bd κ _) rfl 5 (by decide) mX8_kept_f59 rfl rfl dX8_kept_6 ?_
  exact hret _ _ _ _ _ _ dX8_kept_9 (Option.some.inj h).symm rfl (Nat.le_of_ble_eq_true rfl) (Nat.le_of_ble_eq_true rfl)
abbrev rmX8_keptSum : Room := { frames := 2, cells := 0, slots := 0, locals := 42 }
set_option maxRecDepth 20000 in
theorem kX8_keptSum_X8 : ∀ w ∈ u_ws RX8 TX8 19, w ∈ wsX8_keptSum := by decide +kernel
set_option maxRecDepth 20000 in
theorem mX8_keptSum_f3 : Cond.fieldLink RX8 3 "SetCouncilModel" "thrown" "I" ∈ wsX8_keptSum := by decide +kernel
set_option maxRecDepth 20000 in
theorem mX8_keptSum_f59 : Cond.fieldLink RX8 59 "SetCouncilModel" "keptMany" "I" ∈ wsX8_keptSum := by decide +kernel
set_option maxRecDepth 20000 in
theorem mX8_keptSum_f34 : Cond.fieldLink RX8 34 "SetCouncilModel" "kept" "[[Z" ∈ wsX8_keptSum := by decide +kernel
set_option maxHeartbeats 4000000 in
set_option maxRecDepth 100000 in
theorem wX8_keptSum_L9 {E : evT} {l : Launch} {D : va_G} {bd : Nat → Nat} {κ : Nat → ClassId} (hE : EvOk E) {Γ : cxT} (G : Cx (mW bd κ) D (tyA κ) E l Γ cX8_keptSum RX8 wsX8_keptSum 3 rmX8_keptSum) {o : (Int32 × mS)} (hret : ∀ (st2 : mS) (v : Int32) (cells slots pc : Nat) (lv : List (Nat × Value)), decode cX8_keptSum pc = .ok (.ireturn, 1) → o = (v, st2) → narrow .int (.int v) = .int v → cells ≤ rmX8_keptSum.cells → slots ≤ rmX8_keptSum.slots → V (mW bd κ) D Γ st2 cells slots pc lv [.int v]) : ∀ (fuel : Nat) (x1 : Int32) (x2 : Int32) (s : mS), fX8_keptSum_L9 fuel x1 x2 s = some o → V (mW bd κ) D Γ s 0 0 9 [(0, .ref (bd 67)), (1, .int x1), (2, .int x2)] [] := by
  intro fuel
  induction fuel with
  | zero =>
    intro _ _ _ h
    have h : none = some o := h
    cases h
  | succ fuel ih =>
    intro x1 x2 s h
    rw [fX8_keptSum_L9] at h
    refine r_iload_n G 2 rfl rfl dX8_keptSum_9 ?_
    refine r_aload_n G 0 rfl rfl dX8_keptSum_10 ?_
    refine r_get G (C := RX8) (T := TX8) (N := 19) kX8_keptSum_X8 67 (mw_MO bd κ _) rfl 5 (by decide) mX8_keptSum_f59 rfl rfl dX8_keptSum_11 ?_
    refine r_icmp_ge G (tgt := 35) dX8_keptSum_14 (by decide) (fun c => ?_) (fun c => ?_)
    · rw [if_pos c] at h
      refine r_iload_n G 1 rfl rfl dX8_keptSum_35 ?_
      exact hret _ _ _ _ _ _ dX8_keptSum_36 (Option.some.inj h).symm rfl (Nat.le_of_ble_eq_true rfl) (Nat.le_of_ble_eq_true rfl)
    · rw [if_neg c] at h
      refine r_iload_n G 1 rfl rfl dX8_keptSum_17 ?_
      refine r_aload_n G 0 rfl rfl dX8_keptSum_18 ?_
      refine r_get G (C := RX8) (T := TX8) (N := 19) kX8_keptSum_X8 67 (mw_MO bd κ _) rfl 3 (by decide) mX8_keptSum_f34 rfl rfl dX8_keptSum_19 ?_
      refine r_iload_n G 2 rfl rfl dX8_keptSum_22 ?_
      obtain ⟨g1, h⟩ := og h
      refine r_aldA G (69 + 0) 5 (mw_GRID bd κ _ (by decide)) rfl (vin_in g1) rfl dX8_keptSum_23 ?_
      obtain ⟨o2, e2, h⟩ := ob h
      refine r_callSi G [.ref (bd (9 + 7 * 0 + x2.toNatClampNeg))] (qX8_sumOf hE (9 + 7 * 0 + x2.toNatClampNeg) (by have := vin_lt g1; have h2 : 0 < 2 := (by decide); omega) _ e2) gX8_keptSum_X8_sumOf rfl hdX8_sumOf ⟨Nat.le_of_ble_eq_true rfl, Nat.le_of_ble_eq_true rfl⟩ (Nat.le_of_ble_eq_true rfl) rfl ⟨Nat.le_of_ble_eq_true rfl, Nat.le_of_ble_eq_true rfl⟩ rfl rfl dX8_keptSum_24 (fun r2 s2 hp hn2 => ?_)
      subst hp
      try dsimp only at h
      refine r_iadd G dX8_keptSum_27 ?_
      refine r_istore_n G (lv' := [(0, .ref (bd 67)), (1, .int (x1 + r2)), (2, .int x2)]) [1, 0, 2] rfl rfl (by decide) dX8_keptSum_28 ?_
      refine r_iinc G (j := 2) rfl (v := x2 + 1) (lv' := [(0, .ref (bd 67)), (1, .int (x1 + r2)), (2, .int (x2 + 1))]) rfl [1, 2, 0] rfl (by decide) dX8_keptSum_29 ?_
      refine r_goto G (tgt := 9) dX8_keptSum_32 (by decide) ?_
      exact ih _ _ _ h
set_option maxHeartbeats 4000000 in
set_option maxRecDepth 100000 in
theorem qX8_keptSum {E : evT} {l : Launch} {D : va_G} {bd : Nat → Nat} {κ : Nat → ClassId} (hE : EvOk E) (s : mS) {o : (Int32 × mS)} (h : fX8_keptSum s = some o) : Ci l yX8_keptSum wsX8_keptSum rmX8_keptSum (mW bd κ) E D (tyA κ) .int [.ref (bd 67)] s (fun r s2 => o = (r, s2)) := by
  rw [fX8_keptSum] at h
  refine s_i (cc := cX8_keptSum) (nL := 3) (own := RX8) hE (mW_WA bd κ) (plainFor_of_name (by decide)) rfl rfl (Nat.le_of_ble_eq_true rfl) (fun Γ G hret => ?_)
  refine r_aload_n G 0 rfl rfl dX8_keptSum_0 ?_
  refine r_iconst G (v := 0) (by decide) dX8_keptSum_1 ?_
  refine r_put G (C := RX8) (T := TX8) (N := 19) kX8_keptSum_X8 tyX8 tyX8_ok nmX8 67 (mw_MO bd κ _) rfl 0 (by decide) mX8_keptSum_f3 rfl rfl (tyX8_ok 0 (by decide)) rfl rfl (Nat.le_of_ble_eq_true rfl) (mu_thrown bd κ _ _) dX8_keptSum_2 ?_
  refine r_iconst G (v := 0) (by decide) dX8_keptSum_5 ?_
  refine r_istore_n G (lv' := [(0, .ref (bd 67)), (1, .int 0)]) [1, 0] rfl rfl (by decide) dX8_keptSum_6 ?_
  refine r_iconst G (v := 0) (by decide) dX8_keptSum_7 ?_
  refine r_istore_n G (lv' := [(0, .ref (bd 67)), (1, .int 0), (2, .int 0)]) [1, 2, 0] rfl rfl (by decide) dX8_keptSum_8 ?_
  refine wX8_keptSum_L9 hE G hret 1100 _ _ _ h
abbrev rmX8_dropAll : Room := { frames := 0, cells := 0, slots := 0, locals := 0 }
set_option maxRecDepth 20000 in
theorem kX8_dropAll_X8 : ∀ w ∈ u_ws RX8 TX8 19, w ∈ wsX8_dropAll := by decide +kernel
set_option maxRecDepth 20000 in
theorem mX8_dropAll_f3 : Cond.fieldLink RX8 3 "SetCouncilModel" "thrown" "I" ∈ wsX8_dropAll := by decide +kernel
set_option maxRecDepth 20000 in
theorem mX8_dropAll_f59 : Cond.fieldLink RX8 59 "SetCouncilModel" "keptMany" "I" ∈ wsX8_dropAll := by decide +kernel
set_option maxHeartbeats 4000000 in
set_option maxRecDepth 100000 in
theorem qX8_dropAll {E : evT} {l : Launch} {D : va_G} {bd : Nat → Nat} {κ : Nat → ClassId} (hE : EvOk E) (s : mS) {o : (Int32 × mS)} (h : fX8_dropAll s = some o) : Ci l yX8_dropAll wsX8_dropAll rmX8_dropAll (mW bd κ) E D (tyA κ) .int [.ref (bd 67)] s (fun r s2 => o = (r, s2)) := by
  rw [fX8_dropAll] at h
  refine s_i (cc := cX8_dropAll) (nL := 2) (own := RX8) hE (mW_WA bd κ) (plainFor_of_name (by decide)) rfl rfl (Nat.le_of_ble_eq_true rfl) (fun Γ G hret => ?_)
  refine r_aload_n G 0 rfl rfl dX8_dropAll_0 ?_
  refine r_iconst G (v := 0) (by decide) dX8_dropAll_1 ?_
  refine r_put G (C := RX8) (T := TX8) (N := 19) kX8_dropAll_X8 tyX8 tyX8_ok nmX8 67 (mw_MO bd κ _) rfl 0 (by decide) mX8_dropAll_f3 rfl rfl (tyX8_ok 0 (by decide)) rfl rfl (Nat.le_of_ble_eq_true rfl) (mu_thrown bd κ _ _) dX8_dropAll_2 ?_
  refine r_aload_n G 0 rfl rfl dX8_dropAll_5 ?_
  refine r_get G (C := RX8) (T := TX8) (N := 19) kX8_dropAll_X8 67 (mw_MO bd κ _) rfl 5 (by decide) mX8_dropAll_f59 rfl rfl dX8_dropAll_6 ?_
  refine r_istore_n G (lv' := [(0, .ref (bd 67)), (1, .int (mI (vI s 0 0) 1))]) [1, 0] rfl rfl (by decide) dX8_dropAll_9 ?_
  refine r_aload_n G 0 rfl rfl dX8_dropAll_10 ?_
  refine r_iconst G (v := 0) (by decide) dX8_dropAll_11 ?_
  refine r_put G (C := RX8) (T := TX8) (N := 19) kX8_dropAll_X8 tyX8 tyX8_ok nmX8 67 (mw_MO bd κ _) rfl 5 (by decide) mX8_dropAll_f59 rfl rfl (tyX8_ok 5 (by decide)) rfl rfl (Nat.le_of_ble_eq_true rfl) (mu_keptMany bd κ _ _) dX8_dropAll_12 ?_
  refine r_iload_n G 1 rfl rfl dX8_dropAll_15 ?_
  exact hret _ _ _ _ _ _ dX8_dropAll_16 (Option.some.inj h).symm rfl (Nat.le_of_ble_eq_true rfl) (Nat.le_of_ble_eq_true rfl)
abbrev rmX8_placeOf : Room := { frames := 3, cells := 0, slots := 0, locals := 66 }
set_option maxRecDepth 20000 in
theorem kX8_placeOf_X8 : ∀ w ∈ u_ws RX8 TX8 19, w ∈ wsX8_placeOf := by decide +kernel
set_option maxRecDepth 20000 in
theorem mX8_placeOf_f34 : Cond.fieldLink RX8 34 "SetCouncilModel" "kept" "[[Z" ∈ wsX8_placeOf := by decide +kernel
set_option maxRecDepth 20000 in
theorem mX8_placeOf_f59 : Cond.fieldLink RX8 59 "SetCouncilModel" "keptMany" "I" ∈ wsX8_placeOf := by decide +kernel
set_option maxRecDepth 20000 in
theorem mX8_placeOf_f27 : Cond.fieldLink RX8 27 "SetCouncilModel" "sets" "[[Z" ∈ wsX8_placeOf := by decide +kernel
set_option maxHeartbeats 4000000 in
set_option maxRecDepth 100000 in
theorem qX8_placeOf {E : evT} {l : Launch} {D : va_G} {bd : Nat → Nat} {κ : Nat → ClassId} (hE : EvOk E) (p0 : Int32) (s : mS) {o : (Int32 × mS)} (h : fX8_placeOf p0 s = some o) : Ci l yX8_placeOf wsX8_placeOf rmX8_placeOf (mW bd κ) E D (tyA κ) .int [.ref (bd 67), .int p0] s (fun r s2 => o = (r, s2)) := by
  rw [fX8_placeOf] at h
  refine s_i (cc := cX8_placeOf) (nL := 2) (own := RX8) hE (mW_WA bd κ) (plainFor_of_name (by decide)) rfl rfl (Nat.le_of_ble_eq_true rfl) (fun Γ G hret => ?_)
  refine r_aload_n G 0 rfl rfl dX8_placeOf_0 ?_
  refine r_iload_n G 1 rfl rfl dX8_placeOf_1 ?_
  refine r_callSi G [.int p0] (qX8_isSet hE p0 _) gX8_placeOf_X8_isSet rfl hdX8_isSet ⟨Nat.le_of_ble_eq_true rfl, Nat.le_of_ble_eq_true rfl⟩ (Nat.le_of_ble_eq_true rfl) rfl ⟨Nat.le_of_ble_eq_true rfl, Nat.le_of_ble_eq_true rfl⟩ rfl rfl dX8_placeOf_2 (fun r1 s1 hp hn1 => ?_)
  obtain ⟨rfl, hs⟩ := hp
  have hs := hs.symm
  subst hs
  refine r_iconst G (v := 1) (by decide) dX8_placeOf_5 ?_
  obtain ⟨o2, e2, h⟩ := ob h
  refine r_callVi G [.int (fX8_isSet p0 s), .int 1] (qX8_passes hE (fX8_isSet p0 s) (1 : Int32) _ e2) ⟨67, 8, _, _, rfl, (mw_MO bd κ _), rfl⟩ gX8_placeOf_X8_passes rfl hdX8_passes ⟨Nat.le_of_ble_eq_true rfl, Nat.le_of_ble_eq_true rfl⟩ (Nat.le_of_ble_eq_true rfl) rfl ⟨Nat.le_of_ble_eq_true rfl, Nat.le_of_ble_eq_true rfl⟩ rfl rfl dX8_placeOf_6 (fun r2 s2 hp hn2 => ?_)
  subst hp
  try dsimp only at h
  refine r_if_eq G (tgt := 32) dX8_placeOf_9 (by decide) (fun c => ?_) (fun c => ?_)
  · rw [if_pos c] at h
    refine r_iconst G (v := 0) (by decide) dX8_placeOf_32 ?_
    exact hret _ _ _ _ _ _ dX8_placeOf_33 (Option.some.inj h).symm rfl (Nat.le_of_ble_eq_true rfl) (Nat.le_of_ble_eq_true rfl)
  · rw [if_neg c] at h
    refine r_aload_n G 0 rfl rfl dX8_placeOf_12 ?_
    refine r_get G (C := RX8) (T := TX8) (N := 19) kX8_placeOf_X8 67 (mw_MO bd κ _) rfl 3 (by decide) mX8_placeOf_f34 rfl rfl dX8_placeOf_13 ?_
    refine r_aload_n G 0 rfl rfl dX8_placeOf_16 ?_
    refine r_get G (C := RX8) (T := TX8) (N := 19) kX8_placeOf_X8 67 (mw_MO bd κ _) rfl 5 (by decide) mX8_placeOf_f59 rfl rfl dX8_placeOf_17 ?_
    refine r_aload_n G 0 rfl rfl dX8_placeOf_20 ?_
    refine r_get G (C := RX8) (T := TX8) (N := 19) kX8_placeOf_X8 67 (mw_MO bd κ _) rfl 1 (by decide) mX8_placeOf_f27 rfl rfl dX8_placeOf_21 ?_
    refine r_iload_n G 1 rfl rfl dX8_placeOf_24 ?_
    obtain ⟨g3, h⟩ := og h
    refine r_aldA G 68 5 (mw_SETSG bd κ _) rfl (vin_in g3) rfl dX8_placeOf_25 ?_
    obtain ⟨o4, e4, h⟩ := ob h
    refine r_callSi G [.ref (bd (69 + 0)), .int (mI s2 1), .ref (bd p0.toNatClampNeg)] (qX8_find hE 0 (by decide) (mI s2 1) p0.toNatClampNeg (by have := vin_lt g3; omega) _ e4) gX8_placeOf_X8_find rfl hdX8_find ⟨Nat.le_of_ble_eq_true rfl, Nat.le_of_ble_eq_true rfl⟩ (Nat.le_of_ble_eq_true rfl) rfl ⟨Nat.le_of_ble_eq_true rfl, Nat.le_of_ble_eq_true rfl⟩ rfl rfl dX8_placeOf_26 (fun r4 s4 hp hn4 => ?_)
    subst hp
    try dsimp only at h
    refine r_goto G (tgt := 33) dX8_placeOf_29 (by decide) ?_
    exact hret _ _ _ _ _ _ dX8_placeOf_33 (Option.some.inj h).symm rfl (Nat.le_of_ble_eq_true rfl) (Nat.le_of_ble_eq_true rfl)
abbrev rmX8_take : Room := { frames := 2, cells := 0, slots := 0, locals := 42 }
set_option maxRecDepth 20000 in
theorem kX8_take_X8 : ∀ w ∈ u_ws RX8 TX8 19, w ∈ wsX8_take := by decide +kernel
set_option maxRecDepth 20000 in
theorem mX8_take_f59 : Cond.fieldLink RX8 59 "SetCouncilModel" "keptMany" "I" ∈ wsX8_take := by decide +kernel
set_option maxRecDepth 20000 in
theorem mX8_take_f34 : Cond.fieldLink RX8 34 "SetCouncilModel" "kept" "[[Z" ∈ wsX8_take := by decide +kernel
set_option maxRecDepth 20000 in
theorem mX8_take_f27 : Cond.fieldLink RX8 27 "SetCouncilModel" "sets" "[[Z" ∈ wsX8_take := by decide +kernel
set_option maxHeartbeats 4000000 in
set_option maxRecDepth 100000 in
theorem qX8_take {E : evT} {l : Launch} {D : va_G} {bd : Nat → Nat} {κ : Nat → ClassId} (hE : EvOk E) (p0 : Int32) (p1 : Int32) (s : mS) {o : (Int32 × mS)} (h : fX8_take p0 p1 s = some o) : Ci l yX8_take wsX8_take rmX8_take (mW bd κ) E D (tyA κ) .int [.ref (bd 67), .int p0, .int p1] s (fun r s2 => o = (r, s2)) := by
  rw [fX8_take] at h
  refine s_i (cc := cX8_take) (nL := 3) (own := RX8) hE (mW_WA bd κ) (plainFor_of_name (by decide)) rfl rfl (Nat.le_of_ble_eq_true rfl) (fun Γ G hret => ?_)
  refine r_aload_n G 0 rfl rfl dX8_take_0 ?_
  refine r_iload_n G 1 rfl rfl dX8_take_1 ?_
  refine r_callSi G [.int p0] (qX8_isSet hE p0 _) gX8_take_X8_isSet rfl hdX8_isSet ⟨Nat.le_of_ble_eq_true rfl, Nat.le_of_ble_eq_true rfl⟩ (Nat.le_of_ble_eq_true rfl) rfl ⟨Nat.le_of_ble_eq_true rfl, Nat.le_of_ble_eq_true rfl⟩ rfl rfl dX8_take_2 (fun r1 s1 hp hn1 => ?_)
  obtain ⟨rfl, hs⟩ := hp
  have hs := hs.symm
  subst hs
  refine r_iload_n G 2 rfl rfl dX8_take_5 ?_
  refine r_iconst G (v := 0) (by decide) dX8_take_6 ?_
  refine r_aload_n G 0 rfl rfl dX8_take_7 ?_
  refine r_get G (C := RX8) (T := TX8) (N := 19) kX8_take_X8 67 (mw_MO bd κ _) rfl 5 (by decide) mX8_take_f59 rfl rfl dX8_take_8 ?_
  refine r_iconst G (v := 1) (by decide) dX8_take_11 ?_
  refine r_isub G dX8_take_12 ?_
  refine r_callSi G [.int p1, .int 0, .int ((mI s 1) - 1)] (qX8_in hE p1 (0 : Int32) ((mI s 1) - 1) _) gX8_take_X8_in rfl hdX8_in ⟨Nat.le_of_ble_eq_true rfl, Nat.le_of_ble_eq_true rfl⟩ (Nat.le_of_ble_eq_true rfl) rfl ⟨Nat.le_of_ble_eq_true rfl, Nat.le_of_ble_eq_true rfl⟩ rfl rfl dX8_take_13 (fun r2 s2 hp hn2 => ?_)
  obtain ⟨rfl, hs⟩ := hp
  have hs := hs.symm
  subst hs
  obtain ⟨o3, e3, h⟩ := ob h
  refine r_callVi G [.int (fX8_isSet p0 s), .int (fX8_in p1 (0 : Int32) ((mI s 1) - 1) s)] (qX8_passes hE (fX8_isSet p0 s) (fX8_in p1 (0 : Int32) ((mI s 1) - 1) s) _ e3) ⟨67, 8, _, _, rfl, (mw_MO bd κ _), rfl⟩ gX8_take_X8_passes rfl hdX8_passes ⟨Nat.le_of_ble_eq_true rfl, Nat.le_of_ble_eq_true rfl⟩ (Nat.le_of_ble_eq_true rfl) rfl ⟨Nat.le_of_ble_eq_true rfl, Nat.le_of_ble_eq_true rfl⟩ rfl rfl dX8_take_16 (fun r3 s3 hp hn3 => ?_)
  subst hp
  try dsimp only at h
  refine r_if_ne G (tgt := 24) dX8_take_19 (by decide) (fun c => ?_) (fun c => ?_)
  · rw [if_neg c] at h
    refine r_aload_n G 0 rfl rfl dX8_take_24 ?_
    refine r_get G (C := RX8) (T := TX8) (N := 19) kX8_take_X8 67 (mw_MO bd κ _) rfl 3 (by decide) mX8_take_f34 rfl rfl dX8_take_25 ?_
    refine r_iload_n G 2 rfl rfl dX8_take_28 ?_
    obtain ⟨g4, h⟩ := og h
    refine r_aldA G (69 + 0) 5 (mw_GRID bd κ _ (by decide)) rfl (vin_in g4) rfl dX8_take_29 ?_
    refine r_aload_n G 0 rfl rfl dX8_take_30 ?_
    refine r_get G (C := RX8) (T := TX8) (N := 19) kX8_take_X8 67 (mw_MO bd κ _) rfl 1 (by decide) mX8_take_f27 rfl rfl dX8_take_31 ?_
    refine r_iload_n G 1 rfl rfl dX8_take_34 ?_
    obtain ⟨g5, h⟩ := og h
    refine r_aldA G 68 5 (mw_SETSG bd κ _) rfl (vin_in g5) rfl dX8_take_35 ?_
    obtain ⟨o6, e6, h⟩ := ob h
    refine r_callSv G [.ref (bd (9 + 7 * 0 + p1.toNatClampNeg)), .ref (bd p0.toNatClampNeg)] (qX8_copies hE (9 + 7 * 0 + p1.toNatClampNeg) (by have := vin_lt g4; have h2 : 0 < 2 := (by decide); omega) p0.toNatClampNeg (by have := vin_lt g5; omega) _ e6) gX8_take_X8_copies rfl hdX8_copies ⟨Nat.le_of_ble_eq_true rfl, Nat.le_of_ble_eq_true rfl⟩ (Nat.le_of_ble_eq_true rfl) rfl ⟨Nat.le_of_ble_eq_true rfl, Nat.le_of_ble_eq_true rfl⟩ rfl rfl dX8_take_36 (fun s6 hp => ?_)
    have hp := hp.symm
    subst hp
    try dsimp only at h
    refine r_aload_n G 0 rfl rfl dX8_take_39 ?_
    refine r_get G (C := RX8) (T := TX8) (N := 19) kX8_take_X8 67 (mw_MO bd κ _) rfl 1 (by decide) mX8_take_f27 rfl rfl dX8_take_40 ?_
    refine r_iload_n G 1 rfl rfl dX8_take_43 ?_
    obtain ⟨g7, h⟩ := og h
    refine r_aldA G 68 5 (mw_SETSG bd κ _) rfl (vin_in g7) rfl dX8_take_44 ?_
    obtain ⟨o8, e8, h⟩ := ob h
    refine r_callSi G [.ref (bd p0.toNatClampNeg)] (qX8_sizeOf hE p0.toNatClampNeg (by have := vin_lt g7; omega) _ e8) gX8_take_X8_sizeOf rfl hdX8_sizeOf ⟨Nat.le_of_ble_eq_true rfl, Nat.le_of_ble_eq_true rfl⟩ (Nat.le_of_ble_eq_true rfl) rfl ⟨Nat.le_of_ble_eq_true rfl, Nat.le_of_ble_eq_true rfl⟩ rfl rfl dX8_take_45 (fun r8 s8 hp hn8 => ?_)
    subst hp
    try dsimp only at h
    exact hret _ _ _ _ _ _ dX8_take_48 (Option.some.inj h).symm rfl (Nat.le_of_ble_eq_true rfl) (Nat.le_of_ble_eq_true rfl)
  · rw [if_pos c] at h
    refine r_iconst G (v := 0) (by decide) dX8_take_22 ?_
    exact hret _ _ _ _ _ _ dX8_take_23 (Option.some.inj h).symm rfl (Nat.le_of_ble_eq_true rfl) (Nat.le_of_ble_eq_true rfl)
abbrev rmX8_spreads : Room := { frames := 3, cells := 0, slots := 0, locals := 67 }
set_option maxRecDepth 20000 in
theorem kX8_spreads_X8 : ∀ w ∈ u_ws RX8 TX8 19, w ∈ wsX8_spreads := by decide +kernel
set_option maxRecDepth 20000 in
theorem mX8_spreads_f59 : Cond.fieldLink RX8 59 "SetCouncilModel" "keptMany" "I" ∈ wsX8_spreads := by decide +kernel
set_option maxRecDepth 20000 in
theorem mX8_spreads_f34 : Cond.fieldLink RX8 34 "SetCouncilModel" "kept" "[[Z" ∈ wsX8_spreads := by decide +kernel
set_option maxRecDepth 20000 in
theorem mX8_spreads_f37 : Cond.fieldLink RX8 37 "SetCouncilModel" "next" "[[Z" ∈ wsX8_spreads := by decide +kernel
set_option maxHeartbeats 4000000 in
set_option maxRecDepth 100000 in
theorem wX8_spreads_L2 {E : evT} {l : Launch} {D : va_G} {bd : Nat → Nat} {κ : Nat → ClassId} (hE : EvOk E) {Γ : cxT} (G : Cx (mW bd κ) D (tyA κ) E l Γ cX8_spreads RX8 wsX8_spreads 4 rmX8_spreads) (x1 : Int32) {o : (Int32 × mS)} (hret : ∀ (st2 : mS) (v : Int32) (cells slots pc : Nat) (lv : List (Nat × Value)), decode cX8_spreads pc = .ok (.ireturn, 1) → o = (v, st2) → narrow .boolean (.int v) = .int v → cells ≤ rmX8_spreads.cells → slots ≤ rmX8_spreads.slots → V (mW bd κ) D Γ st2 cells slots pc lv [.int v]) {k0 : mS → Option (Int32 × mS)} (hk0 : ∀ (s : mS), k0 s = some o → V (mW bd κ) D Γ s 0 0 31 [(0, .ref (bd 67)), (1, .int x1)] []) : ∀ (fuel : Nat) (x2 : Int32) (s : mS), fX8_spreads_L2 x1 k0 fuel x2 s = some o → V (mW bd κ) D Γ s 0 0 2 [(0, .ref (bd 67)), (1, .int x1), (2, .int x2)] [] := by
  intro fuel
  induction fuel with
  | zero =>
    intro _ _ h
    have h : none = some o := h
    cases h
  | succ fuel ih =>
    intro x2 s h
    rw [fX8_spreads_L2] at h
    refine r_iload_n G 2 rfl rfl dX8_spreads_2 ?_
    refine r_aload_n G 0 rfl rfl dX8_spreads_3 ?_
    refine r_get G (C := RX8) (T := TX8) (N := 19) kX8_spreads_X8 67 (mw_MO bd κ _) rfl 5 (by decide) mX8_spreads_f59 rfl rfl dX8_spreads_4 ?_
    refine r_icmp_ge G (tgt := 31) dX8_spreads_7 (by decide) (fun c => ?_) (fun c => ?_)
    · rw [if_pos c] at h
      refine V.sub (lv' := [(0, .ref (bd 67)), (1, .int x1)]) [0, 1] rfl ?_
      exact hk0 _ h
    · rw [if_neg c] at h
      refine r_aload_n G 0 rfl rfl dX8_spreads_10 ?_
      refine r_get G (C := RX8) (T := TX8) (N := 19) kX8_spreads_X8 67 (mw_MO bd κ _) rfl 3 (by decide) mX8_spreads_f34 rfl rfl dX8_spreads_11 ?_
      refine r_iload_n G 2 rfl rfl dX8_spreads_14 ?_
      obtain ⟨g1, h⟩ := og h
      refine r_aldA G (69 + 0) 5 (mw_GRID bd κ _ (by decide)) rfl (vin_in g1) rfl dX8_spreads_15 ?_
      refine r_aload_n G 0 rfl rfl dX8_spreads_16 ?_
      refine r_get G (C := RX8) (T := TX8) (N := 19) kX8_spreads_X8 67 (mw_MO bd κ _) rfl 4 (by decide) mX8_spreads_f37 rfl rfl dX8_spreads_17 ?_
      refine r_iload_n G 2 rfl rfl dX8_spreads_20 ?_
      obtain ⟨g2, h⟩ := og h
      refine r_aldA G (69 + 1) 5 (mw_GRID bd κ _ (by decide)) rfl (vin_in g2) rfl dX8_spreads_21 ?_
      obtain ⟨o3, e3, h⟩ := ob h
      refine r_callSv G [.ref (bd (9 + 7 * 0 + x2.toNatClampNeg)), .ref (bd (9 + 7 * 1 + x2.toNatClampNeg))] (qX8_copies hE (9 + 7 * 0 + x2.toNatClampNeg) (by have := vin_lt g1; have h2 : 0 < 2 := (by decide); omega) (9 + 7 * 1 + x2.toNatClampNeg) (by have := vin_lt g2; have h2 : 1 < 2 := (by decide); omega) _ e3) gX8_spreads_X8_copies rfl hdX8_copies ⟨Nat.le_of_ble_eq_true rfl, Nat.le_of_ble_eq_true rfl⟩ (Nat.le_of_ble_eq_true rfl) rfl ⟨Nat.le_of_ble_eq_true rfl, Nat.le_of_ble_eq_true rfl⟩ rfl rfl dX8_spreads_22 (fun s3 hp => ?_)
      have hp := hp.symm
      subst hp
      try dsimp only at h
      refine r_iinc G (j := 2) rfl (v := x2 + 1) (lv' := [(0, .ref (bd 67)), (1, .int x1), (2, .int (x2 + 1))]) rfl [1, 2, 0] rfl (by decide) dX8_spreads_25 ?_
      refine r_goto G (tgt := 2) dX8_spreads_28 (by decide) ?_
      exact ih _ _ h
set_option maxRecDepth 20000 in
theorem mX8_spreads_f123 : Cond.fieldLink RX8 123 "SetCouncilModel" "nextMany" "I" ∈ wsX8_spreads := by decide +kernel
set_option maxRecDepth 20000 in
theorem mX8_spreads_f30 : Cond.fieldLink RX8 30 "SetCouncilModel" "before" "[Z" ∈ wsX8_spreads := by decide +kernel
set_option maxHeartbeats 4000000 in
set_option maxRecDepth 100000 in
theorem wX8_spreads_L51 {E : evT} {l : Launch} {D : va_G} {bd : Nat → Nat} {κ : Nat → ClassId} (hE : EvOk E) {Γ : cxT} (G : Cx (mW bd κ) D (tyA κ) E l Γ cX8_spreads RX8 wsX8_spreads 4 rmX8_spreads) (x1 : Int32) (x2 : Int32) {o : (Int32 × mS)} (hret : ∀ (st2 : mS) (v : Int32) (cells slots pc : Nat) (lv : List (Nat × Value)), decode cX8_spreads pc = .ok (.ireturn, 1) → o = (v, st2) → narrow .boolean (.int v) = .int v → cells ≤ rmX8_spreads.cells → slots ≤ rmX8_spreads.slots → V (mW bd κ) D Γ st2 cells slots pc lv [.int v]) {k0 : mS → Option (Int32 × mS)} (hk0 : ∀ (s : mS), k0 s = some o → V (mW bd κ) D Γ s 0 0 145 [(0, .ref (bd 67)), (1, .int x1), (2, .int x2)] []) : ∀ (fuel : Nat) (x3 : Int32) (s : mS), fX8_spreads_L51 x1 x2 k0 fuel x3 s = some o → V (mW bd κ) D Γ s 0 0 51 [(0, .ref (bd 67)), (1, .int x1), (2, .int x2), (3, .int x3)] [] := by
  intro fuel
  induction fuel with
  | zero =>
    intro _ _ h
    have h : none = some o := h
    cases h
  | succ fuel ih =>
    intro x3 s h
    rw [fX8_spreads_L51] at h
    refine r_iload_n G 3 rfl rfl dX8_spreads_51 ?_
    refine r_aload_n G 0 rfl rfl dX8_spreads_52 ?_
    refine r_get G (C := RX8) (T := TX8) (N := 19) kX8_spreads_X8 67 (mw_MO bd κ _) rfl 5 (by decide) mX8_spreads_f59 rfl rfl dX8_spreads_53 ?_
    refine r_icmp_ge G (tgt := 145) dX8_spreads_56 (by decide) (fun c => ?_) (fun c => ?_)
    · rw [if_pos c] at h
      refine V.sub (lv' := [(0, .ref (bd 67)), (1, .int x1), (2, .int x2)]) [0, 1, 2] rfl ?_
      exact hk0 _ h
    · rw [if_neg c] at h
      refine r_aload_n G 0 rfl rfl dX8_spreads_59 ?_
      refine r_get G (C := RX8) (T := TX8) (N := 19) kX8_spreads_X8 67 (mw_MO bd κ _) rfl 3 (by decide) mX8_spreads_f34 rfl rfl dX8_spreads_60 ?_
      refine r_iload_n G 2 rfl rfl dX8_spreads_63 ?_
      obtain ⟨g5, h⟩ := og h
      refine r_aldA G (69 + 0) 5 (mw_GRID bd κ _ (by decide)) rfl (vin_in g5) rfl dX8_spreads_64 ?_
      refine r_aload_n G 0 rfl rfl dX8_spreads_65 ?_
      refine r_get G (C := RX8) (T := TX8) (N := 19) kX8_spreads_X8 67 (mw_MO bd κ _) rfl 3 (by decide) mX8_spreads_f34 rfl rfl dX8_spreads_66 ?_
      refine r_iload_n G 3 rfl rfl dX8_spreads_69 ?_
      obtain ⟨g6, h⟩ := og h
      refine r_aldA G (69 + 0) 5 (mw_GRID bd κ _ (by decide)) rfl (vin_in g6) rfl dX8_spreads_70 ?_
      refine r_iload_n G 1 rfl rfl dX8_spreads_71 ?_
      refine r_aload_n G 0 rfl rfl dX8_spreads_72 ?_
      refine r_get G (C := RX8) (T := TX8) (N := 19) kX8_spreads_X8 67 (mw_MO bd κ _) rfl 2 (by decide) mX8_spreads_f30 rfl rfl dX8_spreads_73 ?_
      obtain ⟨o7, e7, h⟩ := ob h
      refine r_callSv G [.ref (bd (9 + 7 * 0 + x2.toNatClampNeg)), .ref (bd (9 + 7 * 0 + x3.toNatClampNeg)), .int x1, .ref (bd 8)] (qX8_joins hE (9 + 7 * 0 + x2.toNatClampNeg) (by have := vin_lt g5; have h2 : 0 < 2 := (by decide); omega) (9 + 7 * 0 + x3.toNatClampNeg) (by have := vin_lt g6; have h2 : 0 < 2 := (by decide); omega) x1 8 (by decide) _ e7) gX8_spreads_X8_joins rfl hdX8_joins ⟨Nat.le_of_ble_eq_true rfl, Nat.le_of_ble_eq_true rfl⟩ (Nat.le_of_ble_eq_true rfl) rfl ⟨Nat.le_of_ble_eq_true rfl, Nat.le_of_ble_eq_true rfl⟩ rfl rfl dX8_spreads_76 (fun s7 hp => ?_)
      have hp := hp.symm
      subst hp
      try dsimp only at h
      refine r_iload_n G 2 rfl rfl dX8_spreads_79 ?_
      refine r_iload_n G 3 rfl rfl dX8_spreads_80 ?_
      refine r_icmp_eq G (tgt := 139) dX8_spreads_81 (by decide) (fun c => ?_) (fun c => ?_)
      · rw [if_pos c] at h
        refine r_iinc G (j := 3) rfl (v := x3 + 1) (lv' := [(0, .ref (bd 67)), (1, .int x1), (2, .int x2), (3, .int (x3 + 1))]) rfl [1, 2, 3, 0] rfl (by decide) dX8_spreads_139 ?_
        refine r_goto G (tgt := 51) dX8_spreads_142 (by decide) ?_
        exact ih _ _ h
      · rw [if_neg c] at h
        refine r_aload_n G 0 rfl rfl dX8_spreads_84 ?_
        refine r_get G (C := RX8) (T := TX8) (N := 19) kX8_spreads_X8 67 (mw_MO bd κ _) rfl 4 (by decide) mX8_spreads_f37 rfl rfl dX8_spreads_85 ?_
        refine r_aload_n G 0 rfl rfl dX8_spreads_88 ?_
        refine r_get G (C := RX8) (T := TX8) (N := 19) kX8_spreads_X8 67 (mw_MO bd κ _) rfl 6 (by decide) mX8_spreads_f123 rfl rfl dX8_spreads_89 ?_
        refine r_aload_n G 0 rfl rfl dX8_spreads_92 ?_
        refine r_get G (C := RX8) (T := TX8) (N := 19) kX8_spreads_X8 67 (mw_MO bd κ _) rfl 2 (by decide) mX8_spreads_f30 rfl rfl dX8_spreads_93 ?_
        obtain ⟨o8, e8, h⟩ := ob h
        refine r_callSi G [.ref (bd (69 + 1)), .int (mI s7 2), .ref (bd 8)] (qX8_find hE 1 (by decide) (mI s7 2) 8 (by decide) _ e8) gX8_spreads_X8_find rfl hdX8_find ⟨Nat.le_of_ble_eq_true rfl, Nat.le_of_ble_eq_true rfl⟩ (Nat.le_of_ble_eq_true rfl) rfl ⟨Nat.le_of_ble_eq_true rfl, Nat.le_of_ble_eq_true rfl⟩ rfl rfl dX8_spreads_96 (fun r8 s8 hp hn8 => ?_)
        subst hp
        try dsimp only at h
        refine r_iconst G (v := (-1)) (by decide) dX8_spreads_99 ?_
        refine r_icmp_ne G (tgt := 139) dX8_spreads_100 (by decide) (fun c => ?_) (fun c => ?_)
        · rw [if_neg c] at h
          refine r_iinc G (j := 3) rfl (v := x3 + 1) (lv' := [(0, .ref (bd 67)), (1, .int x1), (2, .int x2), (3, .int (x3 + 1))]) rfl [1, 2, 3, 0] rfl (by decide) dX8_spreads_139 ?_
          refine r_goto G (tgt := 51) dX8_spreads_142 (by decide) ?_
          exact ih _ _ h
        · rw [if_pos c] at h
          refine r_aload_n G 0 rfl rfl dX8_spreads_103 ?_
          refine r_get G (C := RX8) (T := TX8) (N := 19) kX8_spreads_X8 67 (mw_MO bd κ _) rfl 6 (by decide) mX8_spreads_f123 rfl rfl dX8_spreads_104 ?_
          refine r_bipush G (v := 7) (by decide) dX8_spreads_107 ?_
          refine r_icmp_ne G (tgt := 114) dX8_spreads_109 (by decide) (fun c => ?_) (fun c => ?_)
          · rw [if_neg c] at h
            refine r_aload_n G 0 rfl rfl dX8_spreads_114 ?_
            refine r_get G (C := RX8) (T := TX8) (N := 19) kX8_spreads_X8 67 (mw_MO bd κ _) rfl 4 (by decide) mX8_spreads_f37 rfl rfl dX8_spreads_115 ?_
            refine r_aload_n G 0 rfl rfl dX8_spreads_118 ?_
            refine r_get G (C := RX8) (T := TX8) (N := 19) kX8_spreads_X8 67 (mw_MO bd κ _) rfl 6 (by decide) mX8_spreads_f123 rfl rfl dX8_spreads_119 ?_
            refine r_aload_n G 0 rfl rfl dX8_spreads_122 ?_
            refine r_get G (C := RX8) (T := TX8) (N := 19) kX8_spreads_X8 67 (mw_MO bd κ _) rfl 2 (by decide) mX8_spreads_f30 rfl rfl dX8_spreads_123 ?_
            obtain ⟨o9, e9, h⟩ := ob h
            refine r_callSv G [.ref (bd (69 + 1)), .int (mI s8 2), .ref (bd 8)] (qX8_inserts hE 1 (by decide) (mI s8 2) 8 (by decide) _ e9) gX8_spreads_X8_inserts rfl hdX8_inserts ⟨Nat.le_of_ble_eq_true rfl, Nat.le_of_ble_eq_true rfl⟩ (Nat.le_of_ble_eq_true rfl) rfl ⟨Nat.le_of_ble_eq_true rfl, Nat.le_of_ble_eq_true rfl⟩ rfl rfl dX8_spreads_126 (fun s9 hp => ?_)
            have hp := hp.symm
            subst hp
            try dsimp only at h
            refine r_aload_n G 0 rfl rfl dX8_spreads_129 ?_
            refine r_dup G rfl dX8_spreads_130 ?_
            refine r_get G (C := RX8) (T := TX8) (N := 19) kX8_spreads_X8 67 (mw_MO bd κ _) rfl 6 (by decide) mX8_spreads_f123 rfl rfl dX8_spreads_131 ?_
            refine r_iconst G (v := 1) (by decide) dX8_spreads_134 ?_
            refine r_iadd G dX8_spreads_135 ?_
            refine r_put G (C := RX8) (T := TX8) (N := 19) kX8_spreads_X8 tyX8 tyX8_ok nmX8 67 (mw_MO bd κ _) rfl 6 (by decide) mX8_spreads_f123 rfl rfl (tyX8_ok 6 (by decide)) rfl rfl (Nat.le_of_ble_eq_true rfl) (mu_nextMany bd κ _ _) dX8_spreads_136 ?_
            refine r_iinc G (j := 3) rfl (v := x3 + 1) (lv' := [(0, .ref (bd 67)), (1, .int x1), (2, .int x2), (3, .int (x3 + 1))]) rfl [1, 2, 3, 0] rfl (by decide) dX8_spreads_139 ?_
            refine r_goto G (tgt := 51) dX8_spreads_142 (by decide) ?_
            exact ih _ _ h
          · rw [if_pos c] at h
            refine r_iconst G (v := 0) (by decide) dX8_spreads_112 ?_
            exact hret _ _ _ _ _ _ dX8_spreads_113 (Option.some.inj h).symm rfl (Nat.le_of_ble_eq_true rfl) (Nat.le_of_ble_eq_true rfl)
set_option maxHeartbeats 4000000 in
set_option maxRecDepth 100000 in
theorem wX8_spreads_L41 {E : evT} {l : Launch} {D : va_G} {bd : Nat → Nat} {κ : Nat → ClassId} (hE : EvOk E) {Γ : cxT} (G : Cx (mW bd κ) D (tyA κ) E l Γ cX8_spreads RX8 wsX8_spreads 4 rmX8_spreads) (x1 : Int32) {o : (Int32 × mS)} (hret : ∀ (st2 : mS) (v : Int32) (cells slots pc : Nat) (lv : List (Nat × Value)), decode cX8_spreads pc = .ok (.ireturn, 1) → o = (v, st2) → narrow .boolean (.int v) = .int v → cells ≤ rmX8_spreads.cells → slots ≤ rmX8_spreads.slots → V (mW bd κ) D Γ st2 cells slots pc lv [.int v]) : ∀ (fuel : Nat) (x2 : Int32) (s : mS), fX8_spreads_L41 x1 fuel x2 s = some o → V (mW bd κ) D Γ s 0 0 41 [(0, .ref (bd 67)), (1, .int x1), (2, .int x2)] [] := by
  intro fuel
  induction fuel with
  | zero =>
    intro _ _ h
    have h : none = some o := h
    cases h
  | succ fuel ih =>
    intro x2 s h
    rw [fX8_spreads_L41] at h
    refine r_iload_n G 2 rfl rfl dX8_spreads_41 ?_
    refine r_aload_n G 0 rfl rfl dX8_spreads_42 ?_
    refine r_get G (C := RX8) (T := TX8) (N := 19) kX8_spreads_X8 67 (mw_MO bd κ _) rfl 5 (by decide) mX8_spreads_f59 rfl rfl dX8_spreads_43 ?_
    refine r_icmp_ge G (tgt := 151) dX8_spreads_46 (by decide) (fun c => ?_) (fun c => ?_)
    · rw [if_pos c] at h
      refine r_iconst G (v := 1) (by decide) dX8_spreads_151 ?_
      exact hret _ _ _ _ _ _ dX8_spreads_152 (Option.some.inj h).symm rfl (Nat.le_of_ble_eq_true rfl) (Nat.le_of_ble_eq_true rfl)
    · rw [if_neg c] at h
      refine r_iconst G (v := 0) (by decide) dX8_spreads_49 ?_
      refine r_istore_n G (lv' := [(0, .ref (bd 67)), (1, .int x1), (2, .int x2), (3, .int 0)]) [1, 2, 3, 0] rfl rfl (by decide) dX8_spreads_50 ?_
      refine wX8_spreads_L51 hE G _ _ hret (fun s10 h => ?_) 1100 _ _ h
      · try dsimp only at h
        refine r_iinc G (j := 2) rfl (v := x2 + 1) (lv' := [(0, .ref (bd 67)), (1, .int x1), (2, .int (x2 + 1))]) rfl [1, 2, 0] rfl (by decide) dX8_spreads_145 ?_
        refine r_goto G (tgt := 41) dX8_spreads_148 (by decide) ?_
        exact ih _ _ h
set_option maxHeartbeats 4000000 in
set_option maxRecDepth 100000 in
theorem qX8_spreads {E : evT} {l : Launch} {D : va_G} {bd : Nat → Nat} {κ : Nat → ClassId} (hE : EvOk E) (p0 : Int32) (s : mS) {o : (Int32 × mS)} (h : fX8_spreads p0 s = some o) : Ci l yX8_spreads wsX8_spreads rmX8_spreads (mW bd κ) E D (tyA κ) .boolean [.ref (bd 67), .int p0] s (fun r s2 => o = (r, s2)) := by
  rw [fX8_spreads] at h
  refine s_i (cc := cX8_spreads) (nL := 4) (own := RX8) hE (mW_WA bd κ) (plainFor_of_name (by decide)) rfl rfl (Nat.le_of_ble_eq_true rfl) (fun Γ G hret => ?_)
  refine r_iconst G (v := 0) (by decide) dX8_spreads_0 ?_
  refine r_istore_n G (lv' := [(0, .ref (bd 67)), (1, .int p0), (2, .int 0)]) [1, 2, 0] rfl rfl (by decide) dX8_spreads_1 ?_
  refine wX8_spreads_L2 hE G _ hret (fun s4 h => ?_) 1100 _ _ h
  · try dsimp only at h
    refine r_aload_n G 0 rfl rfl dX8_spreads_31 ?_
    refine r_aload_n G 0 rfl rfl dX8_spreads_32 ?_
    refine r_get G (C := RX8) (T := TX8) (N := 19) kX8_spreads_X8 67 (mw_MO bd κ _) rfl 5 (by decide) mX8_spreads_f59 rfl rfl dX8_spreads_33 ?_
    refine r_put G (C := RX8) (T := TX8) (N := 19) kX8_spreads_X8 tyX8 tyX8_ok nmX8 67 (mw_MO bd κ _) rfl 6 (by decide) mX8_spreads_f123 rfl rfl (tyX8_ok 6 (by decide)) rfl rfl (Nat.le_of_ble_eq_true rfl) (mu_nextMany bd κ _ _) dX8_spreads_36 ?_
    refine r_iconst G (v := 0) (by decide) dX8_spreads_39 ?_
    refine r_istore_n G (lv' := [(0, .ref (bd 67)), (1, .int p0), (2, .int 0)]) [1, 2, 0] rfl rfl (by decide) dX8_spreads_40 ?_
    refine wX8_spreads_L41 hE G _ hret 1100 _ _ h
abbrev rmX8_spread : Room := { frames := 4, cells := 0, slots := 0, locals := 90 }
theorem hdX8_spreads : yX8_spreads.cls = RX8 ∧ yX8_spreads.cls ≠ "java/lang/invoke/MethodHandle" ∧ yX8_spreads.cls ≠ "java/lang/invoke/VarHandle" ∧ (parseMethodDescriptor yX8_spreads.desc).map (fun d => d.parameters.length) = some 1 := by decide +kernel
set_option maxRecDepth 20000 in
theorem kX8_spread_X8 : ∀ w ∈ u_ws RX8 TX8 19, w ∈ wsX8_spread := by decide +kernel
set_option maxRecDepth 20000 in
theorem mX8_spread_f123 : Cond.fieldLink RX8 123 "SetCouncilModel" "nextMany" "I" ∈ wsX8_spread := by decide +kernel
set_option maxRecDepth 20000 in
theorem mX8_spread_f59 : Cond.fieldLink RX8 59 "SetCouncilModel" "keptMany" "I" ∈ wsX8_spread := by decide +kernel
set_option maxRecDepth 20000 in
theorem mX8_spread_f37 : Cond.fieldLink RX8 37 "SetCouncilModel" "next" "[[Z" ∈ wsX8_spread := by decide +kernel
set_option maxRecDepth 20000 in
theorem mX8_spread_f34 : Cond.fieldLink RX8 34 "SetCouncilModel" "kept" "[[Z" ∈ wsX8_spread := by decide +kernel
set_option maxHeartbeats 4000000 in
set_option maxRecDepth 100000 in
theorem wX8_spread_L38 {E : evT} {l : Launch} {D : va_G} {bd : Nat → Nat} {κ : Nat → ClassId} (hE : EvOk E) {Γ : cxT} (G : Cx (mW bd κ) D (tyA κ) E l Γ cX8_spread RX8 wsX8_spread 4 rmX8_spread) (x2 : Int32) {o : (Int32 × mS)} (hret : ∀ (st2 : mS) (v : Int32) (cells slots pc : Nat) (lv : List (Nat × Value)), decode cX8_spread pc = .ok (.ireturn, 1) → o = (v, st2) → narrow .int (.int v) = .int v → cells ≤ rmX8_spread.cells → slots ≤ rmX8_spread.slots → V (mW bd κ) D Γ st2 cells slots pc lv [.int v]) : ∀ (fuel : Nat) (x3 : Int32) (s : mS), fX8_spread_L38 x2 fuel x3 s = some o → V (mW bd κ) D Γ s 0 0 38 [(0, .ref (bd 67)), (2, .int x2), (3, .int x3)] [] := by
  intro fuel
  induction fuel with
  | zero =>
    intro _ _ h
    have h : none = some o := h
    cases h
  | succ fuel ih =>
    intro x3 s h
    rw [fX8_spread_L38] at h
    refine r_iload_n G 2 rfl rfl dX8_spread_38 ?_
    refine r_aload_n G 0 rfl rfl dX8_spread_39 ?_
    refine r_get G (C := RX8) (T := TX8) (N := 19) kX8_spread_X8 67 (mw_MO bd κ _) rfl 6 (by decide) mX8_spread_f123 rfl rfl dX8_spread_40 ?_
    refine r_icmp_ge G (tgt := 67) dX8_spread_43 (by decide) (fun c => ?_) (fun c => ?_)
    · rw [if_pos c] at h
      refine r_aload_n G 0 rfl rfl dX8_spread_67 ?_
      refine r_aload_n G 0 rfl rfl dX8_spread_68 ?_
      refine r_get G (C := RX8) (T := TX8) (N := 19) kX8_spread_X8 67 (mw_MO bd κ _) rfl 6 (by decide) mX8_spread_f123 rfl rfl dX8_spread_69 ?_
      refine r_put G (C := RX8) (T := TX8) (N := 19) kX8_spread_X8 tyX8 tyX8_ok nmX8 67 (mw_MO bd κ _) rfl 5 (by decide) mX8_spread_f59 rfl rfl (tyX8_ok 5 (by decide)) rfl rfl (Nat.le_of_ble_eq_true rfl) (mu_keptMany bd κ _ _) dX8_spread_72 ?_
      refine r_iload_n G 1 rfl rfl dX8_spread_75 ?_
      exact hret _ _ _ _ _ _ dX8_spread_76 (Option.some.inj h).symm rfl (Nat.le_of_ble_eq_true rfl) (Nat.le_of_ble_eq_true rfl)
    · rw [if_neg c] at h
      refine r_aload_n G 0 rfl rfl dX8_spread_46 ?_
      refine r_get G (C := RX8) (T := TX8) (N := 19) kX8_spread_X8 67 (mw_MO bd κ _) rfl 4 (by decide) mX8_spread_f37 rfl rfl dX8_spread_47 ?_
      refine r_iload_n G 2 rfl rfl dX8_spread_50 ?_
      obtain ⟨g4, h⟩ := og h
      refine r_aldA G (69 + 1) 5 (mw_GRID bd κ _ (by decide)) rfl (vin_in g4) rfl dX8_spread_51 ?_
      refine r_aload_n G 0 rfl rfl dX8_spread_52 ?_
      refine r_get G (C := RX8) (T := TX8) (N := 19) kX8_spread_X8 67 (mw_MO bd κ _) rfl 3 (by decide) mX8_spread_f34 rfl rfl dX8_spread_53 ?_
      refine r_iload_n G 2 rfl rfl dX8_spread_56 ?_
      obtain ⟨g5, h⟩ := og h
      refine r_aldA G (69 + 0) 5 (mw_GRID bd κ _ (by decide)) rfl (vin_in g5) rfl dX8_spread_57 ?_
      obtain ⟨o6, e6, h⟩ := ob h
      refine r_callSv G [.ref (bd (9 + 7 * 1 + x3.toNatClampNeg)), .ref (bd (9 + 7 * 0 + x3.toNatClampNeg))] (qX8_copies hE (9 + 7 * 1 + x3.toNatClampNeg) (by have := vin_lt g4; have h2 : 1 < 2 := (by decide); omega) (9 + 7 * 0 + x3.toNatClampNeg) (by have := vin_lt g5; have h2 : 0 < 2 := (by decide); omega) _ e6) gX8_spread_X8_copies rfl hdX8_copies ⟨Nat.le_of_ble_eq_true rfl, Nat.le_of_ble_eq_true rfl⟩ (Nat.le_of_ble_eq_true rfl) rfl ⟨Nat.le_of_ble_eq_true rfl, Nat.le_of_ble_eq_true rfl⟩ rfl rfl dX8_spread_58 (fun s6 hp => ?_)
      have hp := hp.symm
      subst hp
      try dsimp only at h
      refine r_iinc G (j := 2) rfl (v := x3 + 1) (lv' := [(0, .ref (bd 67)), (2, .int x2), (3, .int (x3 + 1))]) rfl [1, 2, 0] rfl (by decide) dX8_spread_61 ?_
      refine r_goto G (tgt := 38) dX8_spread_64 (by decide) ?_
      exact ih _ _ h
set_option maxHeartbeats 4000000 in
set_option maxRecDepth 100000 in
theorem qX8_spread {E : evT} {l : Launch} {D : va_G} {bd : Nat → Nat} {κ : Nat → ClassId} (hE : EvOk E) (p0 : Int32) (s : mS) {o : (Int32 × mS)} (h : fX8_spread p0 s = some o) : Ci l yX8_spread wsX8_spread rmX8_spread (mW bd κ) E D (tyA κ) .int [.ref (bd 67), .int p0] s (fun r s2 => o = (r, s2)) := by
  rw [fX8_spread] at h
  refine s_i (cc := cX8_spread) (nL := 4) (own := RX8) hE (mW_WA bd κ) (plainFor_of_name (by decide)) rfl rfl (Nat.le_of_ble_eq_true rfl) (fun Γ G hret => ?_)
  refine r_aload_n G 0 rfl rfl dX8_spread_0 ?_
  refine r_iload_n G 1 rfl rfl dX8_spread_1 ?_
  refine r_iconst G (v := 0) (by decide) dX8_spread_2 ?_
  refine r_iconst G (v := 2) (by decide) dX8_spread_3 ?_
  refine r_callSi G [.int p0, .int 0, .int 2] (qX8_in hE p0 (0 : Int32) (2 : Int32) _) gX8_spread_X8_in rfl hdX8_in ⟨Nat.le_of_ble_eq_true rfl, Nat.le_of_ble_eq_true rfl⟩ (Nat.le_of_ble_eq_true rfl) rfl ⟨Nat.le_of_ble_eq_true rfl, Nat.le_of_ble_eq_true rfl⟩ rfl rfl dX8_spread_4 (fun r1 s1 hp hn1 => ?_)
  obtain ⟨rfl, hs⟩ := hp
  have hs := hs.symm
  subst hs
  refine r_iconst G (v := 1) (by decide) dX8_spread_7 ?_
  obtain ⟨o2, e2, h⟩ := ob h
  refine r_callVi G [.int (fX8_in p0 (0 : Int32) (2 : Int32) s), .int 1] (qX8_passes hE (fX8_in p0 (0 : Int32) (2 : Int32) s) (1 : Int32) _ e2) ⟨67, 8, _, _, rfl, (mw_MO bd κ _), rfl⟩ gX8_spread_X8_passes rfl hdX8_passes ⟨Nat.le_of_ble_eq_true rfl, Nat.le_of_ble_eq_true rfl⟩ (Nat.le_of_ble_eq_true rfl) rfl ⟨Nat.le_of_ble_eq_true rfl, Nat.le_of_ble_eq_true rfl⟩ rfl rfl dX8_spread_8 (fun r2 s2 hp hn2 => ?_)
  subst hp
  try dsimp only at h
  refine r_if_ne G (tgt := 16) dX8_spread_11 (by decide) (fun c => ?_) (fun c => ?_)
  · rw [if_neg c] at h
    refine r_aload_n G 0 rfl rfl dX8_spread_16 ?_
    refine r_iload_n G 1 rfl rfl dX8_spread_17 ?_
    obtain ⟨o3, e3, h⟩ := ob h
    refine r_callVi G [.int p0] (qX8_spreads hE p0 _ e3) ⟨67, 8, _, _, rfl, (mw_MO bd κ _), rfl⟩ gX8_spread_X8_spreads rfl hdX8_spreads ⟨Nat.le_of_ble_eq_true rfl, Nat.le_of_ble_eq_true rfl⟩ (Nat.le_of_ble_eq_true rfl) rfl ⟨Nat.le_of_ble_eq_true rfl, Nat.le_of_ble_eq_true rfl⟩ rfl rfl dX8_spread_18 (fun r3 s3 hp hn3 => ?_)
    subst hp
    try dsimp only at h
    refine r_if_ne G (tgt := 26) dX8_spread_21 (by decide) (fun c => ?_) (fun c => ?_)
    · rw [if_neg c] at h
      refine r_aload_n G 0 rfl rfl dX8_spread_26 ?_
      refine r_get G (C := RX8) (T := TX8) (N := 19) kX8_spread_X8 67 (mw_MO bd κ _) rfl 6 (by decide) mX8_spread_f123 rfl rfl dX8_spread_27 ?_
      refine r_aload_n G 0 rfl rfl dX8_spread_30 ?_
      refine r_get G (C := RX8) (T := TX8) (N := 19) kX8_spread_X8 67 (mw_MO bd κ _) rfl 5 (by decide) mX8_spread_f59 rfl rfl dX8_spread_31 ?_
      refine r_isub G dX8_spread_34 ?_
      refine r_istore_n G (lv' := [(0, .ref (bd 67)), (2, .int ((mI s3 2) - (mI s3 1)))]) [1, 0] rfl rfl (by decide) dX8_spread_35 ?_
      refine r_iconst G (v := 0) (by decide) dX8_spread_36 ?_
      refine r_istore_n G (lv' := [(0, .ref (bd 67)), (2, .int ((mI s3 2) - (mI s3 1))), (3, .int 0)]) [1, 2, 0] rfl rfl (by decide) dX8_spread_37 ?_
      refine wX8_spread_L38 hE G _ hret 1100 _ _ h
    · rw [if_pos c] at h
      refine r_iconst G (v := (-1)) (by decide) dX8_spread_24 ?_
      exact hret _ _ _ _ _ _ dX8_spread_25 (Option.some.inj h).symm rfl (Nat.le_of_ble_eq_true rfl) (Nat.le_of_ble_eq_true rfl)
  · rw [if_pos c] at h
    refine r_iconst G (v := 0) (by decide) dX8_spread_14 ?_
    exact hret _ _ _ _ _ _ dX8_spread_15 (Option.some.inj h).symm rfl (Nat.le_of_ble_eq_true rfl) (Nat.le_of_ble_eq_true rfl)
abbrev rmX8_isClosed : Room := { frames := 4, cells := 0, slots := 0, locals := 90 }
set_option maxRecDepth 20000 in
theorem kX8_isClosed_X8 : ∀ w ∈ u_ws RX8 TX8 19, w ∈ wsX8_isClosed := by decide +kernel
set_option maxRecDepth 20000 in
theorem mX8_isClosed_f123 : Cond.fieldLink RX8 123 "SetCouncilModel" "nextMany" "I" ∈ wsX8_isClosed := by decide +kernel
set_option maxRecDepth 20000 in
theorem mX8_isClosed_f59 : Cond.fieldLink RX8 59 "SetCouncilModel" "keptMany" "I" ∈ wsX8_isClosed := by decide +kernel
set_option maxHeartbeats 4000000 in
set_option maxRecDepth 100000 in
theorem qX8_isClosed {E : evT} {l : Launch} {D : va_G} {bd : Nat → Nat} {κ : Nat → ClassId} (hE : EvOk E) (p0 : Int32) (s : mS) {o : (Int32 × mS)} (h : fX8_isClosed p0 s = some o) : Ci l yX8_isClosed wsX8_isClosed rmX8_isClosed (mW bd κ) E D (tyA κ) .boolean [.ref (bd 67), .int p0] s (fun r s2 => o = (r, s2)) := by
  rw [fX8_isClosed] at h
  refine s_i (cc := cX8_isClosed) (nL := 2) (own := RX8) hE (mW_WA bd κ) (plainFor_of_name (by decide)) rfl rfl (Nat.le_of_ble_eq_true rfl) (fun Γ G hret => ?_)
  refine r_aload_n G 0 rfl rfl dX8_isClosed_0 ?_
  refine r_iload_n G 1 rfl rfl dX8_isClosed_1 ?_
  refine r_iconst G (v := 0) (by decide) dX8_isClosed_2 ?_
  refine r_iconst G (v := 2) (by decide) dX8_isClosed_3 ?_
  refine r_callSi G [.int p0, .int 0, .int 2] (qX8_in hE p0 (0 : Int32) (2 : Int32) _) gX8_isClosed_X8_in rfl hdX8_in ⟨Nat.le_of_ble_eq_true rfl, Nat.le_of_ble_eq_true rfl⟩ (Nat.le_of_ble_eq_true rfl) rfl ⟨Nat.le_of_ble_eq_true rfl, Nat.le_of_ble_eq_true rfl⟩ rfl rfl dX8_isClosed_4 (fun r1 s1 hp hn1 => ?_)
  obtain ⟨rfl, hs⟩ := hp
  have hs := hs.symm
  subst hs
  refine r_iconst G (v := 1) (by decide) dX8_isClosed_7 ?_
  obtain ⟨o2, e2, h⟩ := ob h
  refine r_callVi G [.int (fX8_in p0 (0 : Int32) (2 : Int32) s), .int 1] (qX8_passes hE (fX8_in p0 (0 : Int32) (2 : Int32) s) (1 : Int32) _ e2) ⟨67, 8, _, _, rfl, (mw_MO bd κ _), rfl⟩ gX8_isClosed_X8_passes rfl hdX8_passes ⟨Nat.le_of_ble_eq_true rfl, Nat.le_of_ble_eq_true rfl⟩ (Nat.le_of_ble_eq_true rfl) rfl ⟨Nat.le_of_ble_eq_true rfl, Nat.le_of_ble_eq_true rfl⟩ rfl rfl dX8_isClosed_8 (fun r2 s2 hp hn2 => ?_)
  subst hp
  try dsimp only at h
  refine r_if_eq G (tgt := 37) dX8_isClosed_11 (by decide) (fun c => ?_) (fun c => ?_)
  · rw [if_pos c] at h
    refine r_iconst G (v := 0) (by decide) dX8_isClosed_37 ?_
    exact hret _ _ _ _ _ _ dX8_isClosed_38 (Option.some.inj h).symm rfl (Nat.le_of_ble_eq_true rfl) (Nat.le_of_ble_eq_true rfl)
  · rw [if_neg c] at h
    refine r_aload_n G 0 rfl rfl dX8_isClosed_14 ?_
    refine r_iload_n G 1 rfl rfl dX8_isClosed_15 ?_
    obtain ⟨o3, e3, h⟩ := ob h
    refine r_callVi G [.int p0] (qX8_spreads hE p0 _ e3) ⟨67, 8, _, _, rfl, (mw_MO bd κ _), rfl⟩ gX8_isClosed_X8_spreads rfl hdX8_spreads ⟨Nat.le_of_ble_eq_true rfl, Nat.le_of_ble_eq_true rfl⟩ (Nat.le_of_ble_eq_true rfl) rfl ⟨Nat.le_of_ble_eq_true rfl, Nat.le_of_ble_eq_true rfl⟩ rfl rfl dX8_isClosed_16 (fun r3 s3 hp hn3 => ?_)
    subst hp
    try dsimp only at h
    refine r_if_eq G (tgt := 37) dX8_isClosed_19 (by decide) (fun c => ?_) (fun c => ?_)
    · rw [if_pos c] at h
      refine r_iconst G (v := 0) (by decide) dX8_isClosed_37 ?_
      exact hret _ _ _ _ _ _ dX8_isClosed_38 (Option.some.inj h).symm rfl (Nat.le_of_ble_eq_true rfl) (Nat.le_of_ble_eq_true rfl)
    · rw [if_neg c] at h
      refine r_aload_n G 0 rfl rfl dX8_isClosed_22 ?_
      refine r_get G (C := RX8) (T := TX8) (N := 19) kX8_isClosed_X8 67 (mw_MO bd κ _) rfl 6 (by decide) mX8_isClosed_f123 rfl rfl dX8_isClosed_23 ?_
      refine r_aload_n G 0 rfl rfl dX8_isClosed_26 ?_
      refine r_get G (C := RX8) (T := TX8) (N := 19) kX8_isClosed_X8 67 (mw_MO bd κ _) rfl 5 (by decide) mX8_isClosed_f59 rfl rfl dX8_isClosed_27 ?_
      refine r_icmp_ne G (tgt := 37) dX8_isClosed_30 (by decide) (fun c => ?_) (fun c => ?_)
      · rw [if_neg c] at h
        refine r_iconst G (v := 0) (by decide) dX8_isClosed_37 ?_
        exact hret _ _ _ _ _ _ dX8_isClosed_38 (Option.some.inj h).symm rfl (Nat.le_of_ble_eq_true rfl) (Nat.le_of_ble_eq_true rfl)
      · rw [if_pos c] at h
        refine r_iconst G (v := 1) (by decide) dX8_isClosed_33 ?_
        refine r_goto G (tgt := 38) dX8_isClosed_34 (by decide) ?_
        exact hret _ _ _ _ _ _ dX8_isClosed_38 (Option.some.inj h).symm rfl (Nat.le_of_ble_eq_true rfl) (Nat.le_of_ble_eq_true rfl)
abbrev rmX8_isChain : Room := { frames := 1, cells := 0, slots := 0, locals := 22 }
set_option maxRecDepth 20000 in
theorem kX8_isChain_X8 : ∀ w ∈ u_ws RX8 TX8 19, w ∈ wsX8_isChain := by decide +kernel
set_option maxRecDepth 20000 in
theorem mX8_isChain_f3 : Cond.fieldLink RX8 3 "SetCouncilModel" "thrown" "I" ∈ wsX8_isChain := by decide +kernel
set_option maxRecDepth 20000 in
theorem mX8_isChain_f59 : Cond.fieldLink RX8 59 "SetCouncilModel" "keptMany" "I" ∈ wsX8_isChain := by decide +kernel
set_option maxRecDepth 20000 in
theorem mX8_isChain_f34 : Cond.fieldLink RX8 34 "SetCouncilModel" "kept" "[[Z" ∈ wsX8_isChain := by decide +kernel
set_option maxHeartbeats 4000000 in
set_option maxRecDepth 100000 in
theorem wX8_isChain_L17 {E : evT} {l : Launch} {D : va_G} {bd : Nat → Nat} {κ : Nat → ClassId} (hE : EvOk E) {Γ : cxT} (G : Cx (mW bd κ) D (tyA κ) E l Γ cX8_isChain RX8 wsX8_isChain 3 rmX8_isChain) (x1 : Int32) {o : (Int32 × mS)} (hret : ∀ (st2 : mS) (v : Int32) (cells slots pc : Nat) (lv : List (Nat × Value)), decode cX8_isChain pc = .ok (.ireturn, 1) → o = (v, st2) → narrow .boolean (.int v) = .int v → cells ≤ rmX8_isChain.cells → slots ≤ rmX8_isChain.slots → V (mW bd κ) D Γ st2 cells slots pc lv [.int v]) {k0 : mS → Option (Int32 × mS)} (hk0 : ∀ (s : mS), k0 s = some o → V (mW bd κ) D Γ s 0 0 66 [(0, .ref (bd 67)), (1, .int x1)] []) : ∀ (fuel : Nat) (x2 : Int32) (s : mS), fX8_isChain_L17 x1 k0 fuel x2 s = some o → V (mW bd κ) D Γ s 0 0 17 [(0, .ref (bd 67)), (1, .int x1), (2, .int x2)] [] := by
  intro fuel
  induction fuel with
  | zero =>
    intro _ _ h
    have h : none = some o := h
    cases h
  | succ fuel ih =>
    intro x2 s h
    rw [fX8_isChain_L17] at h
    refine r_iload_n G 2 rfl rfl dX8_isChain_17 ?_
    refine r_iload_n G 1 rfl rfl dX8_isChain_18 ?_
    refine r_icmp_ge G (tgt := 66) dX8_isChain_19 (by decide) (fun c => ?_) (fun c => ?_)
    · rw [if_pos c] at h
      refine V.sub (lv' := [(0, .ref (bd 67)), (1, .int x1)]) [0, 1] rfl ?_
      exact hk0 _ h
    · rw [if_neg c] at h
      refine r_aload_n G 0 rfl rfl dX8_isChain_22 ?_
      refine r_get G (C := RX8) (T := TX8) (N := 19) kX8_isChain_X8 67 (mw_MO bd κ _) rfl 3 (by decide) mX8_isChain_f34 rfl rfl dX8_isChain_23 ?_
      refine r_iload_n G 1 rfl rfl dX8_isChain_26 ?_
      obtain ⟨g1, h⟩ := og h
      refine r_aldA G (69 + 0) 5 (mw_GRID bd κ _ (by decide)) rfl (vin_in g1) rfl dX8_isChain_27 ?_
      refine r_aload_n G 0 rfl rfl dX8_isChain_28 ?_
      refine r_get G (C := RX8) (T := TX8) (N := 19) kX8_isChain_X8 67 (mw_MO bd κ _) rfl 3 (by decide) mX8_isChain_f34 rfl rfl dX8_isChain_29 ?_
      refine r_iload_n G 2 rfl rfl dX8_isChain_32 ?_
      obtain ⟨g2, h⟩ := og h
      refine r_aldA G (69 + 0) 5 (mw_GRID bd κ _ (by decide)) rfl (vin_in g2) rfl dX8_isChain_33 ?_
      obtain ⟨o3, e3, h⟩ := ob h
      refine r_callSi G [.ref (bd (9 + 7 * 0 + x1.toNatClampNeg)), .ref (bd (9 + 7 * 0 + x2.toNatClampNeg))] (qX8_lies hE (9 + 7 * 0 + x1.toNatClampNeg) (by have := vin_lt g1; have h2 : 0 < 2 := (by decide); omega) (9 + 7 * 0 + x2.toNatClampNeg) (by have := vin_lt g2; have h2 : 0 < 2 := (by decide); omega) _ e3) gX8_isChain_X8_lies rfl hdX8_lies ⟨Nat.le_of_ble_eq_true rfl, Nat.le_of_ble_eq_true rfl⟩ (Nat.le_of_ble_eq_true rfl) rfl ⟨Nat.le_of_ble_eq_true rfl, Nat.le_of_ble_eq_true rfl⟩ rfl rfl dX8_isChain_34 (fun r3 s3 hp hn3 => ?_)
      subst hp
      try dsimp only at h
      refine r_if_ne G (tgt := 60) dX8_isChain_37 (by decide) (fun c => ?_) (fun c => ?_)
      · rw [if_neg c] at h
        refine r_iinc G (j := 2) rfl (v := x2 + 1) (lv' := [(0, .ref (bd 67)), (1, .int x1), (2, .int (x2 + 1))]) rfl [1, 2, 0] rfl (by decide) dX8_isChain_60 ?_
        refine r_goto G (tgt := 17) dX8_isChain_63 (by decide) ?_
        exact ih _ _ h
      · rw [if_pos c] at h
        refine r_aload_n G 0 rfl rfl dX8_isChain_40 ?_
        refine r_get G (C := RX8) (T := TX8) (N := 19) kX8_isChain_X8 67 (mw_MO bd κ _) rfl 3 (by decide) mX8_isChain_f34 rfl rfl dX8_isChain_41 ?_
        refine r_iload_n G 2 rfl rfl dX8_isChain_44 ?_
        obtain ⟨g4, h⟩ := og h
        refine r_aldA G (69 + 0) 5 (mw_GRID bd κ _ (by decide)) rfl (vin_in g4) rfl dX8_isChain_45 ?_
        refine r_aload_n G 0 rfl rfl dX8_isChain_46 ?_
        refine r_get G (C := RX8) (T := TX8) (N := 19) kX8_isChain_X8 67 (mw_MO bd κ _) rfl 3 (by decide) mX8_isChain_f34 rfl rfl dX8_isChain_47 ?_
        refine r_iload_n G 1 rfl rfl dX8_isChain_50 ?_
        obtain ⟨g5, h⟩ := og h
        refine r_aldA G (69 + 0) 5 (mw_GRID bd κ _ (by decide)) rfl (vin_in g5) rfl dX8_isChain_51 ?_
        obtain ⟨o6, e6, h⟩ := ob h
        refine r_callSi G [.ref (bd (9 + 7 * 0 + x2.toNatClampNeg)), .ref (bd (9 + 7 * 0 + x1.toNatClampNeg))] (qX8_lies hE (9 + 7 * 0 + x2.toNatClampNeg) (by have := vin_lt g4; have h2 : 0 < 2 := (by decide); omega) (9 + 7 * 0 + x1.toNatClampNeg) (by have := vin_lt g5; have h2 : 0 < 2 := (by decide); omega) _ e6) gX8_isChain_X8_lies rfl hdX8_lies ⟨Nat.le_of_ble_eq_true rfl, Nat.le_of_ble_eq_true rfl⟩ (Nat.le_of_ble_eq_true rfl) rfl ⟨Nat.le_of_ble_eq_true rfl, Nat.le_of_ble_eq_true rfl⟩ rfl rfl dX8_isChain_52 (fun r6 s6 hp hn6 => ?_)
        subst hp
        try dsimp only at h
        refine r_if_ne G (tgt := 60) dX8_isChain_55 (by decide) (fun c => ?_) (fun c => ?_)
        · rw [if_neg c] at h
          refine r_iinc G (j := 2) rfl (v := x2 + 1) (lv' := [(0, .ref (bd 67)), (1, .int x1), (2, .int (x2 + 1))]) rfl [1, 2, 0] rfl (by decide) dX8_isChain_60 ?_
          refine r_goto G (tgt := 17) dX8_isChain_63 (by decide) ?_
          exact ih _ _ h
        · rw [if_pos c] at h
          refine r_iconst G (v := 0) (by decide) dX8_isChain_58 ?_
          exact hret _ _ _ _ _ _ dX8_isChain_59 (Option.some.inj h).symm rfl (Nat.le_of_ble_eq_true rfl) (Nat.le_of_ble_eq_true rfl)
set_option maxHeartbeats 4000000 in
set_option maxRecDepth 100000 in
theorem wX8_isChain_L7 {E : evT} {l : Launch} {D : va_G} {bd : Nat → Nat} {κ : Nat → ClassId} (hE : EvOk E) {Γ : cxT} (G : Cx (mW bd κ) D (tyA κ) E l Γ cX8_isChain RX8 wsX8_isChain 3 rmX8_isChain) {o : (Int32 × mS)} (hret : ∀ (st2 : mS) (v : Int32) (cells slots pc : Nat) (lv : List (Nat × Value)), decode cX8_isChain pc = .ok (.ireturn, 1) → o = (v, st2) → narrow .boolean (.int v) = .int v → cells ≤ rmX8_isChain.cells → slots ≤ rmX8_isChain.slots → V (mW bd κ) D Γ st2 cells slots pc lv [.int v]) : ∀ (fuel : Nat) (x1 : Int32) (s : mS), fX8_isChain_L7 fuel x1 s = some o → V (mW bd κ) D Γ s 0 0 7 [(0, .ref (bd 67)), (1, .int x1)] [] := by
  intro fuel
  induction fuel with
  | zero =>
    intro _ _ h
    have h : none = some o := h
    cases h
  | succ fuel ih =>
    intro x1 s h
    rw [fX8_isChain_L7] at h
    refine r_iload_n G 1 rfl rfl dX8_isChain_7 ?_
    refine r_aload_n G 0 rfl rfl dX8_isChain_8 ?_
    refine r_get G (C := RX8) (T := TX8) (N := 19) kX8_isChain_X8 67 (mw_MO bd κ _) rfl 5 (by decide) mX8_isChain_f59 rfl rfl dX8_isChain_9 ?_
    refine r_icmp_ge G (tgt := 72) dX8_isChain_12 (by decide) (fun c => ?_) (fun c => ?_)
    · rw [if_pos c] at h
      refine r_iconst G (v := 1) (by decide) dX8_isChain_72 ?_
      exact hret _ _ _ _ _ _ dX8_isChain_73 (Option.some.inj h).symm rfl (Nat.le_of_ble_eq_true rfl) (Nat.le_of_ble_eq_true rfl)
    · rw [if_neg c] at h
      refine r_iconst G (v := 0) (by decide) dX8_isChain_15 ?_
      refine r_istore_n G (lv' := [(0, .ref (bd 67)), (1, .int x1), (2, .int 0)]) [1, 2, 0] rfl rfl (by decide) dX8_isChain_16 ?_
      refine wX8_isChain_L17 hE G _ hret (fun s7 h => ?_) 1100 _ _ h
      · try dsimp only at h
        refine r_iinc G (j := 1) rfl (v := x1 + 1) (lv' := [(0, .ref (bd 67)), (1, .int (x1 + 1))]) rfl [1, 0] rfl (by decide) dX8_isChain_66 ?_
        refine r_goto G (tgt := 7) dX8_isChain_69 (by decide) ?_
        exact ih _ _ h
set_option maxHeartbeats 4000000 in
set_option maxRecDepth 100000 in
theorem qX8_isChain {E : evT} {l : Launch} {D : va_G} {bd : Nat → Nat} {κ : Nat → ClassId} (hE : EvOk E) (s : mS) {o : (Int32 × mS)} (h : fX8_isChain s = some o) : Ci l yX8_isChain wsX8_isChain rmX8_isChain (mW bd κ) E D (tyA κ) .boolean [.ref (bd 67)] s (fun r s2 => o = (r, s2)) := by
  rw [fX8_isChain] at h
  refine s_i (cc := cX8_isChain) (nL := 3) (own := RX8) hE (mW_WA bd κ) (plainFor_of_name (by decide)) rfl rfl (Nat.le_of_ble_eq_true rfl) (fun Γ G hret => ?_)
  refine r_aload_n G 0 rfl rfl dX8_isChain_0 ?_
  refine r_iconst G (v := 0) (by decide) dX8_isChain_1 ?_
  refine r_put G (C := RX8) (T := TX8) (N := 19) kX8_isChain_X8 tyX8 tyX8_ok nmX8 67 (mw_MO bd κ _) rfl 0 (by decide) mX8_isChain_f3 rfl rfl (tyX8_ok 0 (by decide)) rfl rfl (Nat.le_of_ble_eq_true rfl) (mu_thrown bd κ _ _) dX8_isChain_2 ?_
  refine r_iconst G (v := 0) (by decide) dX8_isChain_5 ?_
  refine r_istore_n G (lv' := [(0, .ref (bd 67)), (1, .int 0)]) [1, 0] rfl rfl (by decide) dX8_isChain_6 ?_
  refine wX8_isChain_L7 hE G hret 1100 _ _ h
