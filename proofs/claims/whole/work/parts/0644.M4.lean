abbrev rmX8_viewHas : Room := { frames := 3, cells := 0, slots := 0, locals := 64 }
theorem hdX8_has : yX8_has.cls = RX8 ∧ yX8_has.cls ≠ "java/lang/invoke/MethodHandle" ∧ yX8_has.cls ≠ "java/lang/invoke/VarHandle" ∧ (parseMethodDescriptor yX8_has.desc).map (fun d => d.parameters.length) = some 2 := by decide +kernel
set_option maxHeartbeats 4000000 in
set_option maxRecDepth 100000 in
theorem qX8_viewHas {E : evT} {l : Launch} {D : va_G} {bd : Nat → Nat} {κ : Nat → ClassId} (hE : EvOk E) (p0 : Int32) (p1 : Int32) (s : mS) {o : (Int32 × mS)} (h : fX8_viewHas p0 p1 s = some o) : Ci l yX8_viewHas wsX8_viewHas rmX8_viewHas (mW bd κ) E D (tyA κ) .boolean [.ref (bd 67), .int p0, .int p1] s (fun r s2 => o = (r, s2)) := by
  rw [fX8_viewHas] at h
  refine s_i (cc := cX8_viewHas) (nL := 3) (own := RX8) hE (mW_WA bd κ) (plainFor_of_name (by decide)) rfl rfl (Nat.le_of_ble_eq_true rfl) (fun Γ G hret => ?_)
  refine r_aload_n G 0 rfl rfl dX8_viewHas_0 ?_
  refine r_iload_n G 1 rfl rfl dX8_viewHas_1 ?_
  refine r_iload_n G 2 rfl rfl dX8_viewHas_2 ?_
  obtain ⟨o1, e1, h⟩ := ob h
  refine r_callVi G [.int p0, .int p1] (qX8_has hE p0 p1 _ e1) ⟨67, 8, _, _, rfl, (mw_MO bd κ _), rfl⟩ gX8_viewHas_X8_has rfl hdX8_has ⟨Nat.le_of_ble_eq_true rfl, Nat.le_of_ble_eq_true rfl⟩ (Nat.le_of_ble_eq_true rfl) rfl ⟨Nat.le_of_ble_eq_true rfl, Nat.le_of_ble_eq_true rfl⟩ rfl rfl dX8_viewHas_3 (fun r1 s1 hp hn1 => ?_)
  subst hp
  try dsimp only at h
  exact hret _ _ _ _ _ _ dX8_viewHas_6 (Option.some.inj h).symm hn1 (Nat.le_of_ble_eq_true rfl) (Nat.le_of_ble_eq_true rfl)
abbrev rmX8_viewRefuses : Room := { frames := 2, cells := 0, slots := 0, locals := 42 }
set_option maxRecDepth 20000 in
theorem kX8_viewRefuses_X8 : ∀ w ∈ u_ws RX8 TX8 19, w ∈ wsX8_viewRefuses := by decide +kernel
set_option maxRecDepth 20000 in
theorem mX8_viewRefuses_f27 : Cond.fieldLink RX8 27 "SetCouncilModel" "sets" "[[Z" ∈ wsX8_viewRefuses := by decide +kernel
set_option maxHeartbeats 4000000 in
set_option maxRecDepth 100000 in
theorem qX8_viewRefuses {E : evT} {l : Launch} {D : va_G} {bd : Nat → Nat} {κ : Nat → ClassId} (hE : EvOk E) (p0 : Int32) (p1 : Int32) (p2 : Int32) (s : mS) {o : (Int32 × mS)} (h : fX8_viewRefuses p0 p1 p2 s = some o) : Ci l yX8_viewRefuses wsX8_viewRefuses rmX8_viewRefuses (mW bd κ) E D (tyA κ) .boolean [.ref (bd 67), .int p0, .int p1, .int p2] s (fun r s2 => o = (r, s2)) := by
  rw [fX8_viewRefuses] at h
  refine s_i (cc := cX8_viewRefuses) (nL := 4) (own := RX8) hE (mW_WA bd κ) (plainFor_of_name (by decide)) rfl rfl (Nat.le_of_ble_eq_true rfl) (fun Γ G hret => ?_)
  refine r_aload_n G 0 rfl rfl dX8_viewRefuses_0 ?_
  refine r_iload_n G 1 rfl rfl dX8_viewRefuses_1 ?_
  refine r_callSi G [.int p0] (qX8_isSet hE p0 _) gX8_viewRefuses_X8_isSet rfl hdX8_isSet ⟨Nat.le_of_ble_eq_true rfl, Nat.le_of_ble_eq_true rfl⟩ (Nat.le_of_ble_eq_true rfl) rfl ⟨Nat.le_of_ble_eq_true rfl, Nat.le_of_ble_eq_true rfl⟩ rfl rfl dX8_viewRefuses_2 (fun r1 s1 hp hn1 => ?_)
  obtain ⟨rfl, hs⟩ := hp
  have hs := hs.symm
  subst hs
  refine r_iload_n G 2 rfl rfl dX8_viewRefuses_5 ?_
  refine r_iconst G (v := 0) (by decide) dX8_viewRefuses_6 ?_
  refine r_bipush G (v := 6) (by decide) dX8_viewRefuses_7 ?_
  refine r_callSi G [.int p1, .int 0, .int 6] (qX8_in hE p1 (0 : Int32) (6 : Int32) _) gX8_viewRefuses_X8_in rfl hdX8_in ⟨Nat.le_of_ble_eq_true rfl, Nat.le_of_ble_eq_true rfl⟩ (Nat.le_of_ble_eq_true rfl) rfl ⟨Nat.le_of_ble_eq_true rfl, Nat.le_of_ble_eq_true rfl⟩ rfl rfl dX8_viewRefuses_9 (fun r2 s2 hp hn2 => ?_)
  obtain ⟨rfl, hs⟩ := hp
  have hs := hs.symm
  subst hs
  refine r_if_eq G (tgt := 26) dX8_viewRefuses_12 (by decide) (fun c => ?_) (fun c => ?_)
  · rw [if_pos c] at h
    refine r_iconst G (v := 0) (by decide) dX8_viewRefuses_26 ?_
    obtain ⟨o3, e3, h⟩ := ob h
    refine r_callVi G [.int (fX8_isSet p0 s), .int 0] (qX8_passes hE (fX8_isSet p0 s) (0 : Int32) _ e3) ⟨67, 8, _, _, rfl, (mw_MO bd κ _), rfl⟩ gX8_viewRefuses_X8_passes rfl hdX8_passes ⟨Nat.le_of_ble_eq_true rfl, Nat.le_of_ble_eq_true rfl⟩ (Nat.le_of_ble_eq_true rfl) rfl ⟨Nat.le_of_ble_eq_true rfl, Nat.le_of_ble_eq_true rfl⟩ rfl rfl dX8_viewRefuses_27 (fun r3 s3 hp hn3 => ?_)
    subst hp
    try dsimp only at h
    refine r_if_eq G (tgt := 55) dX8_viewRefuses_30 (by decide) (fun c => ?_) (fun c => ?_)
    · rw [if_pos c] at h
      refine r_iconst G (v := 0) (by decide) dX8_viewRefuses_55 ?_
      exact hret _ _ _ _ _ _ dX8_viewRefuses_56 (Option.some.inj h).symm rfl (Nat.le_of_ble_eq_true rfl) (Nat.le_of_ble_eq_true rfl)
    · rw [if_neg c] at h
      refine r_iload_n G 2 rfl rfl dX8_viewRefuses_33 ?_
      refine r_bipush G (v := 6) (by decide) dX8_viewRefuses_34 ?_
      refine r_icmp_lt G (tgt := 51) dX8_viewRefuses_36 (by decide) (fun c => ?_) (fun c => ?_)
      · rw [if_pos c] at h
        refine r_iconst G (v := 1) (by decide) dX8_viewRefuses_51 ?_
        refine r_goto G (tgt := 56) dX8_viewRefuses_52 (by decide) ?_
        exact hret _ _ _ _ _ _ dX8_viewRefuses_56 (Option.some.inj h).symm rfl (Nat.le_of_ble_eq_true rfl) (Nat.le_of_ble_eq_true rfl)
      · rw [if_neg c] at h
        refine r_aload_n G 0 rfl rfl dX8_viewRefuses_39 ?_
        refine r_get G (C := RX8) (T := TX8) (N := 19) kX8_viewRefuses_X8 67 (mw_MO bd κ _) rfl 1 (by decide) mX8_viewRefuses_f27 rfl rfl dX8_viewRefuses_40 ?_
        refine r_iload_n G 1 rfl rfl dX8_viewRefuses_43 ?_
        obtain ⟨g4, h⟩ := og h
        refine r_aldA G 68 5 (mw_SETSG bd κ _) rfl (vin_in g4) rfl dX8_viewRefuses_44 ?_
        obtain ⟨o5, e5, h⟩ := ob h
        refine r_callSi G [.ref (bd p0.toNatClampNeg)] (qX8_sizeOf hE p0.toNatClampNeg (by have := vin_lt g4; omega) _ e5) gX8_viewRefuses_X8_sizeOf rfl hdX8_sizeOf ⟨Nat.le_of_ble_eq_true rfl, Nat.le_of_ble_eq_true rfl⟩ (Nat.le_of_ble_eq_true rfl) rfl ⟨Nat.le_of_ble_eq_true rfl, Nat.le_of_ble_eq_true rfl⟩ rfl rfl dX8_viewRefuses_45 (fun r5 s5 hp hn5 => ?_)
        subst hp
        try dsimp only at h
        refine r_if_le G (tgt := 55) dX8_viewRefuses_48 (by decide) (fun c => ?_) (fun c => ?_)
        · rw [if_pos c] at h
          refine r_iconst G (v := 0) (by decide) dX8_viewRefuses_55 ?_
          exact hret _ _ _ _ _ _ dX8_viewRefuses_56 (Option.some.inj h).symm rfl (Nat.le_of_ble_eq_true rfl) (Nat.le_of_ble_eq_true rfl)
        · rw [if_neg c] at h
          refine r_iconst G (v := 1) (by decide) dX8_viewRefuses_51 ?_
          refine r_goto G (tgt := 56) dX8_viewRefuses_52 (by decide) ?_
          exact hret _ _ _ _ _ _ dX8_viewRefuses_56 (Option.some.inj h).symm rfl (Nat.le_of_ble_eq_true rfl) (Nat.le_of_ble_eq_true rfl)
  · rw [if_neg c] at h
    refine r_iload_n G 3 rfl rfl dX8_viewRefuses_15 ?_
    refine r_callSi G [.int p2] (qX8_isMember hE p2 _) gX8_viewRefuses_X8_isMember rfl hdX8_isMember ⟨Nat.le_of_ble_eq_true rfl, Nat.le_of_ble_eq_true rfl⟩ (Nat.le_of_ble_eq_true rfl) rfl ⟨Nat.le_of_ble_eq_true rfl, Nat.le_of_ble_eq_true rfl⟩ rfl rfl dX8_viewRefuses_16 (fun r6 s6 hp hn6 => ?_)
    obtain ⟨rfl, hs⟩ := hp
    have hs := hs.symm
    subst hs
    refine r_if_eq G (tgt := 26) dX8_viewRefuses_19 (by decide) (fun c => ?_) (fun c => ?_)
    · rw [if_pos c] at h
      refine r_iconst G (v := 0) (by decide) dX8_viewRefuses_26 ?_
      obtain ⟨o7, e7, h⟩ := ob h
      refine r_callVi G [.int (fX8_isSet p0 s), .int 0] (qX8_passes hE (fX8_isSet p0 s) (0 : Int32) _ e7) ⟨67, 8, _, _, rfl, (mw_MO bd κ _), rfl⟩ gX8_viewRefuses_X8_passes rfl hdX8_passes ⟨Nat.le_of_ble_eq_true rfl, Nat.le_of_ble_eq_true rfl⟩ (Nat.le_of_ble_eq_true rfl) rfl ⟨Nat.le_of_ble_eq_true rfl, Nat.le_of_ble_eq_true rfl⟩ rfl rfl dX8_viewRefuses_27 (fun r7 s7 hp hn7 => ?_)
      subst hp
      try dsimp only at h
      refine r_if_eq G (tgt := 55) dX8_viewRefuses_30 (by decide) (fun c => ?_) (fun c => ?_)
      · rw [if_pos c] at h
        refine r_iconst G (v := 0) (by decide) dX8_viewRefuses_55 ?_
        exact hret _ _ _ _ _ _ dX8_viewRefuses_56 (Option.some.inj h).symm rfl (Nat.le_of_ble_eq_true rfl) (Nat.le_of_ble_eq_true rfl)
      · rw [if_neg c] at h
        refine r_iload_n G 2 rfl rfl dX8_viewRefuses_33 ?_
        refine r_bipush G (v := 6) (by decide) dX8_viewRefuses_34 ?_
        refine r_icmp_lt G (tgt := 51) dX8_viewRefuses_36 (by decide) (fun c => ?_) (fun c => ?_)
        · rw [if_pos c] at h
          refine r_iconst G (v := 1) (by decide) dX8_viewRefuses_51 ?_
          refine r_goto G (tgt := 56) dX8_viewRefuses_52 (by decide) ?_
          exact hret _ _ _ _ _ _ dX8_viewRefuses_56 (Option.some.inj h).symm rfl (Nat.le_of_ble_eq_true rfl) (Nat.le_of_ble_eq_true rfl)
        · rw [if_neg c] at h
          refine r_aload_n G 0 rfl rfl dX8_viewRefuses_39 ?_
          refine r_get G (C := RX8) (T := TX8) (N := 19) kX8_viewRefuses_X8 67 (mw_MO bd κ _) rfl 1 (by decide) mX8_viewRefuses_f27 rfl rfl dX8_viewRefuses_40 ?_
          refine r_iload_n G 1 rfl rfl dX8_viewRefuses_43 ?_
          obtain ⟨g8, h⟩ := og h
          refine r_aldA G 68 5 (mw_SETSG bd κ _) rfl (vin_in g8) rfl dX8_viewRefuses_44 ?_
          obtain ⟨o9, e9, h⟩ := ob h
          refine r_callSi G [.ref (bd p0.toNatClampNeg)] (qX8_sizeOf hE p0.toNatClampNeg (by have := vin_lt g8; omega) _ e9) gX8_viewRefuses_X8_sizeOf rfl hdX8_sizeOf ⟨Nat.le_of_ble_eq_true rfl, Nat.le_of_ble_eq_true rfl⟩ (Nat.le_of_ble_eq_true rfl) rfl ⟨Nat.le_of_ble_eq_true rfl, Nat.le_of_ble_eq_true rfl⟩ rfl rfl dX8_viewRefuses_45 (fun r9 s9 hp hn9 => ?_)
          subst hp
          try dsimp only at h
          refine r_if_le G (tgt := 55) dX8_viewRefuses_48 (by decide) (fun c => ?_) (fun c => ?_)
          · rw [if_pos c] at h
            refine r_iconst G (v := 0) (by decide) dX8_viewRefuses_55 ?_
            exact hret _ _ _ _ _ _ dX8_viewRefuses_56 (Option.some.inj h).symm rfl (Nat.le_of_ble_eq_true rfl) (Nat.le_of_ble_eq_true rfl)
          · rw [if_neg c] at h
            refine r_iconst G (v := 1) (by decide) dX8_viewRefuses_51 ?_
            refine r_goto G (tgt := 56) dX8_viewRefuses_52 (by decide) ?_
            exact hret _ _ _ _ _ _ dX8_viewRefuses_56 (Option.some.inj h).symm rfl (Nat.le_of_ble_eq_true rfl) (Nat.le_of_ble_eq_true rfl)
    · rw [if_neg c] at h
      refine r_iconst G (v := 1) (by decide) dX8_viewRefuses_22 ?_
      refine r_goto G (tgt := 27) dX8_viewRefuses_23 (by decide) ?_
      obtain ⟨o10, e10, h⟩ := ob h
      refine r_callVi G [.int (fX8_isSet p0 s), .int 1] (qX8_passes hE (fX8_isSet p0 s) (1 : Int32) _ e10) ⟨67, 8, _, _, rfl, (mw_MO bd κ _), rfl⟩ gX8_viewRefuses_X8_passes rfl hdX8_passes ⟨Nat.le_of_ble_eq_true rfl, Nat.le_of_ble_eq_true rfl⟩ (Nat.le_of_ble_eq_true rfl) rfl ⟨Nat.le_of_ble_eq_true rfl, Nat.le_of_ble_eq_true rfl⟩ rfl rfl dX8_viewRefuses_27 (fun r10 s10 hp hn10 => ?_)
      subst hp
      try dsimp only at h
      refine r_if_eq G (tgt := 55) dX8_viewRefuses_30 (by decide) (fun c => ?_) (fun c => ?_)
      · rw [if_pos c] at h
        refine r_iconst G (v := 0) (by decide) dX8_viewRefuses_55 ?_
        exact hret _ _ _ _ _ _ dX8_viewRefuses_56 (Option.some.inj h).symm rfl (Nat.le_of_ble_eq_true rfl) (Nat.le_of_ble_eq_true rfl)
      · rw [if_neg c] at h
        refine r_iload_n G 2 rfl rfl dX8_viewRefuses_33 ?_
        refine r_bipush G (v := 6) (by decide) dX8_viewRefuses_34 ?_
        refine r_icmp_lt G (tgt := 51) dX8_viewRefuses_36 (by decide) (fun c => ?_) (fun c => ?_)
        · rw [if_pos c] at h
          refine r_iconst G (v := 1) (by decide) dX8_viewRefuses_51 ?_
          refine r_goto G (tgt := 56) dX8_viewRefuses_52 (by decide) ?_
          exact hret _ _ _ _ _ _ dX8_viewRefuses_56 (Option.some.inj h).symm rfl (Nat.le_of_ble_eq_true rfl) (Nat.le_of_ble_eq_true rfl)
        · rw [if_neg c] at h
          refine r_aload_n G 0 rfl rfl dX8_viewRefuses_39 ?_
          refine r_get G (C := RX8) (T := TX8) (N := 19) kX8_viewRefuses_X8 67 (mw_MO bd κ _) rfl 1 (by decide) mX8_viewRefuses_f27 rfl rfl dX8_viewRefuses_40 ?_
          refine r_iload_n G 1 rfl rfl dX8_viewRefuses_43 ?_
          obtain ⟨g11, h⟩ := og h
          refine r_aldA G 68 5 (mw_SETSG bd κ _) rfl (vin_in g11) rfl dX8_viewRefuses_44 ?_
          obtain ⟨o12, e12, h⟩ := ob h
          refine r_callSi G [.ref (bd p0.toNatClampNeg)] (qX8_sizeOf hE p0.toNatClampNeg (by have := vin_lt g11; omega) _ e12) gX8_viewRefuses_X8_sizeOf rfl hdX8_sizeOf ⟨Nat.le_of_ble_eq_true rfl, Nat.le_of_ble_eq_true rfl⟩ (Nat.le_of_ble_eq_true rfl) rfl ⟨Nat.le_of_ble_eq_true rfl, Nat.le_of_ble_eq_true rfl⟩ rfl rfl dX8_viewRefuses_45 (fun r12 s12 hp hn12 => ?_)
          subst hp
          try dsimp only at h
          refine r_if_le G (tgt := 55) dX8_viewRefuses_48 (by decide) (fun c => ?_) (fun c => ?_)
          · rw [if_pos c] at h
            refine r_iconst G (v := 0) (by decide) dX8_viewRefuses_55 ?_
            exact hret _ _ _ _ _ _ dX8_viewRefuses_56 (Option.some.inj h).symm rfl (Nat.le_of_ble_eq_true rfl) (Nat.le_of_ble_eq_true rfl)
          · rw [if_neg c] at h
            refine r_iconst G (v := 1) (by decide) dX8_viewRefuses_51 ?_
            refine r_goto G (tgt := 56) dX8_viewRefuses_52 (by decide) ?_
            exact hret _ _ _ _ _ _ dX8_viewRefuses_56 (Option.some.inj h).symm rfl (Nat.le_of_ble_eq_true rfl) (Nat.le_of_ble_eq_true rfl)
abbrev rmX8_walkRefuses : Room := { frames := 2, cells := 0, slots := 0, locals := 42 }
set_option maxRecDepth 20000 in
theorem kX8_walkRefuses_X8 : ∀ w ∈ u_ws RX8 TX8 19, w ∈ wsX8_walkRefuses := by decide +kernel
set_option maxRecDepth 20000 in
theorem mX8_walkRefuses_f27 : Cond.fieldLink RX8 27 "SetCouncilModel" "sets" "[[Z" ∈ wsX8_walkRefuses := by decide +kernel
set_option maxHeartbeats 4000000 in
set_option maxRecDepth 100000 in
theorem qX8_walkRefuses {E : evT} {l : Launch} {D : va_G} {bd : Nat → Nat} {κ : Nat → ClassId} (hE : EvOk E) (p0 : Int32) (p1 : Int32) (s : mS) {o : (Int32 × mS)} (h : fX8_walkRefuses p0 p1 s = some o) : Ci l yX8_walkRefuses wsX8_walkRefuses rmX8_walkRefuses (mW bd κ) E D (tyA κ) .int [.ref (bd 67), .int p0, .int p1] s (fun r s2 => o = (r, s2)) := by
  rw [fX8_walkRefuses] at h
  refine s_i (cc := cX8_walkRefuses) (nL := 3) (own := RX8) hE (mW_WA bd κ) (plainFor_of_name (by decide)) rfl rfl (Nat.le_of_ble_eq_true rfl) (fun Γ G hret => ?_)
  refine r_aload_n G 0 rfl rfl dX8_walkRefuses_0 ?_
  refine r_iload_n G 1 rfl rfl dX8_walkRefuses_1 ?_
  refine r_callSi G [.int p0] (qX8_isSet hE p0 _) gX8_walkRefuses_X8_isSet rfl hdX8_isSet ⟨Nat.le_of_ble_eq_true rfl, Nat.le_of_ble_eq_true rfl⟩ (Nat.le_of_ble_eq_true rfl) rfl ⟨Nat.le_of_ble_eq_true rfl, Nat.le_of_ble_eq_true rfl⟩ rfl rfl dX8_walkRefuses_2 (fun r1 s1 hp hn1 => ?_)
  obtain ⟨rfl, hs⟩ := hp
  have hs := hs.symm
  subst hs
  refine r_iload_n G 2 rfl rfl dX8_walkRefuses_5 ?_
  refine r_iconst G (v := 0) (by decide) dX8_walkRefuses_6 ?_
  refine r_iconst G (v := 2) (by decide) dX8_walkRefuses_7 ?_
  refine r_callSi G [.int p1, .int 0, .int 2] (qX8_in hE p1 (0 : Int32) (2 : Int32) _) gX8_walkRefuses_X8_in rfl hdX8_in ⟨Nat.le_of_ble_eq_true rfl, Nat.le_of_ble_eq_true rfl⟩ (Nat.le_of_ble_eq_true rfl) rfl ⟨Nat.le_of_ble_eq_true rfl, Nat.le_of_ble_eq_true rfl⟩ rfl rfl dX8_walkRefuses_8 (fun r2 s2 hp hn2 => ?_)
  obtain ⟨rfl, hs⟩ := hp
  have hs := hs.symm
  subst hs
  obtain ⟨o3, e3, h⟩ := ob h
  refine r_callVi G [.int (fX8_isSet p0 s), .int (fX8_in p1 (0 : Int32) (2 : Int32) s)] (qX8_passes hE (fX8_isSet p0 s) (fX8_in p1 (0 : Int32) (2 : Int32) s) _ e3) ⟨67, 8, _, _, rfl, (mw_MO bd κ _), rfl⟩ gX8_walkRefuses_X8_passes rfl hdX8_passes ⟨Nat.le_of_ble_eq_true rfl, Nat.le_of_ble_eq_true rfl⟩ (Nat.le_of_ble_eq_true rfl) rfl ⟨Nat.le_of_ble_eq_true rfl, Nat.le_of_ble_eq_true rfl⟩ rfl rfl dX8_walkRefuses_11 (fun r3 s3 hp hn3 => ?_)
  subst hp
  try dsimp only at h
  refine r_if_ne G (tgt := 19) dX8_walkRefuses_14 (by decide) (fun c => ?_) (fun c => ?_)
  · rw [if_neg c] at h
    refine r_iload_n G 2 rfl rfl dX8_walkRefuses_19 ?_
    refine r_if_eq G (tgt := 40) dX8_walkRefuses_20 (by decide) (fun c => ?_) (fun c => ?_)
    · rw [if_pos c] at h
      refine r_iconst G (v := 1) (by decide) dX8_walkRefuses_40 ?_
      refine r_goto G (tgt := 45) dX8_walkRefuses_41 (by decide) ?_
      exact hret _ _ _ _ _ _ dX8_walkRefuses_45 (Option.some.inj h).symm rfl (Nat.le_of_ble_eq_true rfl) (Nat.le_of_ble_eq_true rfl)
    · rw [if_neg c] at h
      refine r_iload_n G 2 rfl rfl dX8_walkRefuses_23 ?_
      refine r_iconst G (v := 2) (by decide) dX8_walkRefuses_24 ?_
      refine r_icmp_ne G (tgt := 44) dX8_walkRefuses_25 (by decide) (fun c => ?_) (fun c => ?_)
      · rw [if_neg c] at h
        refine r_iconst G (v := 2) (by decide) dX8_walkRefuses_44 ?_
        exact hret _ _ _ _ _ _ dX8_walkRefuses_45 (Option.some.inj h).symm rfl (Nat.le_of_ble_eq_true rfl) (Nat.le_of_ble_eq_true rfl)
      · rw [if_pos c] at h
        refine r_aload_n G 0 rfl rfl dX8_walkRefuses_28 ?_
        refine r_get G (C := RX8) (T := TX8) (N := 19) kX8_walkRefuses_X8 67 (mw_MO bd κ _) rfl 1 (by decide) mX8_walkRefuses_f27 rfl rfl dX8_walkRefuses_29 ?_
        refine r_iload_n G 1 rfl rfl dX8_walkRefuses_32 ?_
        obtain ⟨g4, h⟩ := og h
        refine r_aldA G 68 5 (mw_SETSG bd κ _) rfl (vin_in g4) rfl dX8_walkRefuses_33 ?_
        obtain ⟨o5, e5, h⟩ := ob h
        refine r_callSi G [.ref (bd p0.toNatClampNeg)] (qX8_sizeOf hE p0.toNatClampNeg (by have := vin_lt g4; omega) _ e5) gX8_walkRefuses_X8_sizeOf rfl hdX8_sizeOf ⟨Nat.le_of_ble_eq_true rfl, Nat.le_of_ble_eq_true rfl⟩ (Nat.le_of_ble_eq_true rfl) rfl ⟨Nat.le_of_ble_eq_true rfl, Nat.le_of_ble_eq_true rfl⟩ rfl rfl dX8_walkRefuses_34 (fun r5 s5 hp hn5 => ?_)
        subst hp
        try dsimp only at h
        refine r_if_ne G (tgt := 44) dX8_walkRefuses_37 (by decide) (fun c => ?_) (fun c => ?_)
        · rw [if_neg c] at h
          refine r_iconst G (v := 2) (by decide) dX8_walkRefuses_44 ?_
          exact hret _ _ _ _ _ _ dX8_walkRefuses_45 (Option.some.inj h).symm rfl (Nat.le_of_ble_eq_true rfl) (Nat.le_of_ble_eq_true rfl)
        · rw [if_pos c] at h
          refine r_iconst G (v := 1) (by decide) dX8_walkRefuses_40 ?_
          refine r_goto G (tgt := 45) dX8_walkRefuses_41 (by decide) ?_
          exact hret _ _ _ _ _ _ dX8_walkRefuses_45 (Option.some.inj h).symm rfl (Nat.le_of_ble_eq_true rfl) (Nat.le_of_ble_eq_true rfl)
  · rw [if_pos c] at h
    refine r_iconst G (v := 0) (by decide) dX8_walkRefuses_17 ?_
    exact hret _ _ _ _ _ _ dX8_walkRefuses_18 (Option.some.inj h).symm rfl (Nat.le_of_ble_eq_true rfl) (Nat.le_of_ble_eq_true rfl)
abbrev rmX8_nullRefuses : Room := { frames := 2, cells := 0, slots := 0, locals := 42 }
set_option maxHeartbeats 4000000 in
set_option maxRecDepth 100000 in
theorem qX8_nullRefuses {E : evT} {l : Launch} {D : va_G} {bd : Nat → Nat} {κ : Nat → ClassId} (hE : EvOk E) (p0 : Int32) (p1 : Int32) (s : mS) {o : (Int32 × mS)} (h : fX8_nullRefuses p0 p1 s = some o) : Ci l yX8_nullRefuses wsX8_nullRefuses rmX8_nullRefuses (mW bd κ) E D (tyA κ) .boolean [.ref (bd 67), .int p0, .int p1] s (fun r s2 => o = (r, s2)) := by
  rw [fX8_nullRefuses] at h
  refine s_i (cc := cX8_nullRefuses) (nL := 3) (own := RX8) hE (mW_WA bd κ) (plainFor_of_name (by decide)) rfl rfl (Nat.le_of_ble_eq_true rfl) (fun Γ G hret => ?_)
  refine r_aload_n G 0 rfl rfl dX8_nullRefuses_0 ?_
  refine r_iload_n G 1 rfl rfl dX8_nullRefuses_1 ?_
  refine r_callSi G [.int p0] (qX8_isSet hE p0 _) gX8_nullRefuses_X8_isSet rfl hdX8_isSet ⟨Nat.le_of_ble_eq_true rfl, Nat.le_of_ble_eq_true rfl⟩ (Nat.le_of_ble_eq_true rfl) rfl ⟨Nat.le_of_ble_eq_true rfl, Nat.le_of_ble_eq_true rfl⟩ rfl rfl dX8_nullRefuses_2 (fun r1 s1 hp hn1 => ?_)
  obtain ⟨rfl, hs⟩ := hp
  have hs := hs.symm
  subst hs
  refine r_iload_n G 2 rfl rfl dX8_nullRefuses_5 ?_
  refine r_iconst G (v := 0) (by decide) dX8_nullRefuses_6 ?_
  refine r_iconst G (v := 3) (by decide) dX8_nullRefuses_7 ?_
  refine r_callSi G [.int p1, .int 0, .int 3] (qX8_in hE p1 (0 : Int32) (3 : Int32) _) gX8_nullRefuses_X8_in rfl hdX8_in ⟨Nat.le_of_ble_eq_true rfl, Nat.le_of_ble_eq_true rfl⟩ (Nat.le_of_ble_eq_true rfl) rfl ⟨Nat.le_of_ble_eq_true rfl, Nat.le_of_ble_eq_true rfl⟩ rfl rfl dX8_nullRefuses_8 (fun r2 s2 hp hn2 => ?_)
  obtain ⟨rfl, hs⟩ := hp
  have hs := hs.symm
  subst hs
  obtain ⟨o3, e3, h⟩ := ob h
  refine r_callVi G [.int (fX8_isSet p0 s), .int (fX8_in p1 (0 : Int32) (3 : Int32) s)] (qX8_passes hE (fX8_isSet p0 s) (fX8_in p1 (0 : Int32) (3 : Int32) s) _ e3) ⟨67, 8, _, _, rfl, (mw_MO bd κ _), rfl⟩ gX8_nullRefuses_X8_passes rfl hdX8_passes ⟨Nat.le_of_ble_eq_true rfl, Nat.le_of_ble_eq_true rfl⟩ (Nat.le_of_ble_eq_true rfl) rfl ⟨Nat.le_of_ble_eq_true rfl, Nat.le_of_ble_eq_true rfl⟩ rfl rfl dX8_nullRefuses_11 (fun r3 s3 hp hn3 => ?_)
  subst hp
  try dsimp only at h
  exact hret _ _ _ _ _ _ dX8_nullRefuses_14 (Option.some.inj h).symm hn3 (Nat.le_of_ble_eq_true rfl) (Nat.le_of_ble_eq_true rfl)
abbrev rmX8_three : Room := { frames := 1, cells := 0, slots := 0, locals := 24 }
set_option maxRecDepth 20000 in
theorem kX8_three_X8 : ∀ w ∈ u_ws RX8 TX8 19, w ∈ wsX8_three := by decide +kernel
set_option maxRecDepth 20000 in
theorem mX8_three_f56 : Cond.fieldLink RX8 56 "SetCouncilModel" "spare" "[Z" ∈ wsX8_three := by decide +kernel
set_option maxHeartbeats 4000000 in
set_option maxRecDepth 100000 in
theorem qX8_three {E : evT} {l : Launch} {D : va_G} {bd : Nat → Nat} {κ : Nat → ClassId} (hE : EvOk E) (p0 : Nat) (hp0 : p0 < 67) (p1 : Nat) (hp1 : p1 < 67) (p2 : Nat) (hp2 : p2 < 67) (p3 : Int32) (p4 : Int32) (p5 : Int32) (p6 : Nat) (hp6 : p6 < 67) (s : mS) {o : (mS)} (h : fX8_three p0 p1 p2 p3 p4 p5 p6 s = some o) : Cv l yX8_three wsX8_three rmX8_three (mW bd κ) E D (tyA κ)  [.ref (bd 67), .ref (bd p0), .ref (bd p1), .ref (bd p2), .int p3, .int p4, .int p5, .ref (bd p6)] s (fun s2 => o = s2) := by
  rw [fX8_three] at h
  refine s_v (cc := cX8_three) (nL := 8) (own := RX8) hE (mW_WA bd κ) (by decide) rfl rfl (Nat.le_of_ble_eq_true rfl) (fun Γ G hret => ?_)
  refine r_iload G 6 rfl dX8_three_0 ?_
  refine r_if_eq G (tgt := 9) dX8_three_2 (by decide) (fun c => ?_) (fun c => ?_)
  · rw [if_pos c] at h
    refine r_aload_n G 1 rfl rfl dX8_three_9 ?_
    refine r_iload G 6 rfl dX8_three_10 ?_
    refine r_if_eq G (tgt := 19) dX8_three_12 (by decide) (fun c => ?_) (fun c => ?_)
    · rw [if_pos c] at h
      refine r_aload_n G 2 rfl rfl dX8_three_19 ?_
      refine r_iload G 4 rfl dX8_three_20 ?_
      refine r_aload_n G 0 rfl rfl dX8_three_22 ?_
      refine r_get G (C := RX8) (T := TX8) (N := 19) kX8_three_X8 67 (mw_MO bd κ _) rfl 18 (by decide) mX8_three_f56 rfl rfl dX8_three_23 ?_
      obtain ⟨o1, e1, h⟩ := ob h
      refine r_callSv G [.ref (bd p0), .ref (bd p1), .int p3, .ref (bd 66)] (qX8_joins hE p0 hp0 p1 hp1 p3 66 (by decide) _ e1) gX8_three_X8_joins rfl hdX8_joins ⟨Nat.le_of_ble_eq_true rfl, Nat.le_of_ble_eq_true rfl⟩ (Nat.le_of_ble_eq_true rfl) rfl ⟨Nat.le_of_ble_eq_true rfl, Nat.le_of_ble_eq_true rfl⟩ rfl rfl dX8_three_26 (fun s1 hp => ?_)
      have hp := hp.symm
      subst hp
      try dsimp only at h
      refine r_iload G 6 rfl dX8_three_29 ?_
      refine r_if_eq G (tgt := 38) dX8_three_31 (by decide) (fun c => ?_) (fun c => ?_)
      · rw [if_pos c] at h
        refine r_aload_n G 0 rfl rfl dX8_three_38 ?_
        refine r_get G (C := RX8) (T := TX8) (N := 19) kX8_three_X8 67 (mw_MO bd κ _) rfl 18 (by decide) mX8_three_f56 rfl rfl dX8_three_39 ?_
        refine r_iload G 6 rfl dX8_three_42 ?_
        refine r_if_eq G (tgt := 54) dX8_three_44 (by decide) (fun c => ?_) (fun c => ?_)
        · rw [if_pos c] at h
          refine r_aload_n G 3 rfl rfl dX8_three_54 ?_
          refine r_iload G 5 rfl dX8_three_55 ?_
          refine r_aload G 7 rfl dX8_three_57 ?_
          obtain ⟨o2, e2, h⟩ := ob h
          refine r_callSv G [.ref (bd 66), .ref (bd p2), .int p4, .ref (bd p6)] (qX8_joins hE 66 (by decide) p2 hp2 p4 p6 hp6 _ e2) gX8_three_X8_joins rfl hdX8_joins ⟨Nat.le_of_ble_eq_true rfl, Nat.le_of_ble_eq_true rfl⟩ (Nat.le_of_ble_eq_true rfl) rfl ⟨Nat.le_of_ble_eq_true rfl, Nat.le_of_ble_eq_true rfl⟩ rfl rfl dX8_three_59 (fun s2 hp => ?_)
          have hp := hp.symm
          subst hp
          try dsimp only at h
          exact hret _ _ _ _ _ dX8_three_62 (Option.some.inj h).symm (Nat.le_of_ble_eq_true rfl) (Nat.le_of_ble_eq_true rfl)
        · rw [if_neg c] at h
          refine r_aload_n G 0 rfl rfl dX8_three_47 ?_
          refine r_get G (C := RX8) (T := TX8) (N := 19) kX8_three_X8 67 (mw_MO bd κ _) rfl 18 (by decide) mX8_three_f56 rfl rfl dX8_three_48 ?_
          refine r_goto G (tgt := 55) dX8_three_51 (by decide) ?_
          refine r_iload G 5 rfl dX8_three_55 ?_
          refine r_aload G 7 rfl dX8_three_57 ?_
          obtain ⟨o3, e3, h⟩ := ob h
          refine r_callSv G [.ref (bd 66), .ref (bd 66), .int p4, .ref (bd p6)] (qX8_joins hE 66 (by decide) 66 (by decide) p4 p6 hp6 _ e3) gX8_three_X8_joins rfl hdX8_joins ⟨Nat.le_of_ble_eq_true rfl, Nat.le_of_ble_eq_true rfl⟩ (Nat.le_of_ble_eq_true rfl) rfl ⟨Nat.le_of_ble_eq_true rfl, Nat.le_of_ble_eq_true rfl⟩ rfl rfl dX8_three_59 (fun s3 hp => ?_)
          have hp := hp.symm
          subst hp
          try dsimp only at h
          exact hret _ _ _ _ _ dX8_three_62 (Option.some.inj h).symm (Nat.le_of_ble_eq_true rfl) (Nat.le_of_ble_eq_true rfl)
      · rw [if_neg c] at h
        refine r_aload_n G 1 rfl rfl dX8_three_34 ?_
        refine r_goto G (tgt := 42) dX8_three_35 (by decide) ?_
        refine r_iload G 6 rfl dX8_three_42 ?_
        refine r_if_eq G (tgt := 54) dX8_three_44 (by decide) (fun c => ?_) (fun c => ?_)
        · rw [if_pos c] at h
          refine r_aload_n G 3 rfl rfl dX8_three_54 ?_
          refine r_iload G 5 rfl dX8_three_55 ?_
          refine r_aload G 7 rfl dX8_three_57 ?_
          obtain ⟨o4, e4, h⟩ := ob h
          refine r_callSv G [.ref (bd p0), .ref (bd p2), .int p4, .ref (bd p6)] (qX8_joins hE p0 hp0 p2 hp2 p4 p6 hp6 _ e4) gX8_three_X8_joins rfl hdX8_joins ⟨Nat.le_of_ble_eq_true rfl, Nat.le_of_ble_eq_true rfl⟩ (Nat.le_of_ble_eq_true rfl) rfl ⟨Nat.le_of_ble_eq_true rfl, Nat.le_of_ble_eq_true rfl⟩ rfl rfl dX8_three_59 (fun s4 hp => ?_)
          have hp := hp.symm
          subst hp
          try dsimp only at h
          exact hret _ _ _ _ _ dX8_three_62 (Option.some.inj h).symm (Nat.le_of_ble_eq_true rfl) (Nat.le_of_ble_eq_true rfl)
        · rw [if_neg c] at h
          refine r_aload_n G 0 rfl rfl dX8_three_47 ?_
          refine r_get G (C := RX8) (T := TX8) (N := 19) kX8_three_X8 67 (mw_MO bd κ _) rfl 18 (by decide) mX8_three_f56 rfl rfl dX8_three_48 ?_
          refine r_goto G (tgt := 55) dX8_three_51 (by decide) ?_
          refine r_iload G 5 rfl dX8_three_55 ?_
          refine r_aload G 7 rfl dX8_three_57 ?_
          obtain ⟨o5, e5, h⟩ := ob h
          refine r_callSv G [.ref (bd p0), .ref (bd 66), .int p4, .ref (bd p6)] (qX8_joins hE p0 hp0 66 (by decide) p4 p6 hp6 _ e5) gX8_three_X8_joins rfl hdX8_joins ⟨Nat.le_of_ble_eq_true rfl, Nat.le_of_ble_eq_true rfl⟩ (Nat.le_of_ble_eq_true rfl) rfl ⟨Nat.le_of_ble_eq_true rfl, Nat.le_of_ble_eq_true rfl⟩ rfl rfl dX8_three_59 (fun s5 hp => ?_)
          have hp := hp.symm
          subst hp
          try dsimp only at h
          exact hret _ _ _ _ _ dX8_three_62 (Option.some.inj h).symm (Nat.le_of_ble_eq_true rfl) (Nat.le_of_ble_eq_true rfl)
    · rw [if_neg c] at h
      refine r_aload_n G 3 rfl rfl dX8_three_15 ?_
      refine r_goto G (tgt := 20) dX8_three_16 (by decide) ?_
      refine r_iload G 4 rfl dX8_three_20 ?_
      refine r_aload_n G 0 rfl rfl dX8_three_22 ?_
      refine r_get G (C := RX8) (T := TX8) (N := 19) kX8_three_X8 67 (mw_MO bd κ _) rfl 18 (by decide) mX8_three_f56 rfl rfl dX8_three_23 ?_
      obtain ⟨o6, e6, h⟩ := ob h
      refine r_callSv G [.ref (bd p0), .ref (bd p2), .int p3, .ref (bd 66)] (qX8_joins hE p0 hp0 p2 hp2 p3 66 (by decide) _ e6) gX8_three_X8_joins rfl hdX8_joins ⟨Nat.le_of_ble_eq_true rfl, Nat.le_of_ble_eq_true rfl⟩ (Nat.le_of_ble_eq_true rfl) rfl ⟨Nat.le_of_ble_eq_true rfl, Nat.le_of_ble_eq_true rfl⟩ rfl rfl dX8_three_26 (fun s6 hp => ?_)
      have hp := hp.symm
      subst hp
      try dsimp only at h
      refine r_iload G 6 rfl dX8_three_29 ?_
      refine r_if_eq G (tgt := 38) dX8_three_31 (by decide) (fun c => ?_) (fun c => ?_)
      · rw [if_pos c] at h
        refine r_aload_n G 0 rfl rfl dX8_three_38 ?_
        refine r_get G (C := RX8) (T := TX8) (N := 19) kX8_three_X8 67 (mw_MO bd κ _) rfl 18 (by decide) mX8_three_f56 rfl rfl dX8_three_39 ?_
        refine r_iload G 6 rfl dX8_three_42 ?_
        refine r_if_eq G (tgt := 54) dX8_three_44 (by decide) (fun c => ?_) (fun c => ?_)
        · rw [if_pos c] at h
          refine r_aload_n G 3 rfl rfl dX8_three_54 ?_
          refine r_iload G 5 rfl dX8_three_55 ?_
          refine r_aload G 7 rfl dX8_three_57 ?_
          obtain ⟨o7, e7, h⟩ := ob h
          refine r_callSv G [.ref (bd 66), .ref (bd p2), .int p4, .ref (bd p6)] (qX8_joins hE 66 (by decide) p2 hp2 p4 p6 hp6 _ e7) gX8_three_X8_joins rfl hdX8_joins ⟨Nat.le_of_ble_eq_true rfl, Nat.le_of_ble_eq_true rfl⟩ (Nat.le_of_ble_eq_true rfl) rfl ⟨Nat.le_of_ble_eq_true rfl, Nat.le_of_ble_eq_true rfl⟩ rfl rfl dX8_three_59 (fun s7 hp => ?_)
          have hp := hp.symm
          subst hp
          try dsimp only at h
          exact hret _ _ _ _ _ dX8_three_62 (Option.some.inj h).symm (Nat.le_of_ble_eq_true rfl) (Nat.le_of_ble_eq_true rfl)
        · rw [if_neg c] at h
          refine r_aload_n G 0 rfl rfl dX8_three_47 ?_
          refine r_get G (C := RX8) (T := TX8) (N := 19) kX8_three_X8 67 (mw_MO bd κ _) rfl 18 (by decide) mX8_three_f56 rfl rfl dX8_three_48 ?_
          refine r_goto G (tgt := 55) dX8_three_51 (by decide) ?_
          refine r_iload G 5 rfl dX8_three_55 ?_
          refine r_aload G 7 rfl dX8_three_57 ?_
          obtain ⟨o8, e8, h⟩ := ob h
          refine r_callSv G [.ref (bd 66), .ref (bd 66), .int p4, .ref (bd p6)] (qX8_joins hE 66 (by decide) 66 (by decide) p4 p6 hp6 _ e8) gX8_three_X8_joins rfl hdX8_joins ⟨Nat.le_of_ble_eq_true rfl, Nat.le_of_ble_eq_true rfl⟩ (Nat.le_of_ble_eq_true rfl) rfl ⟨Nat.le_of_ble_eq_true rfl, Nat.le_of_ble_eq_true rfl⟩ rfl rfl dX8_three_59 (fun s8 hp => ?_)
          have hp := hp.symm
          subst hp
          try dsimp only at h
          exact hret _ _ _ _ _ dX8_three_62 (Option.some.inj h).symm (Nat.le_of_ble_eq_true rfl) (Nat.le_of_ble_eq_true rfl)
      · rw [if_neg c] at h
        refine r_aload_n G 1 rfl rfl dX8_three_34 ?_
        refine r_goto G (tgt := 42) dX8_three_35 (by decide) ?_
        refine r_iload G 6 rfl dX8_three_42 ?_
        refine r_if_eq G (tgt := 54) dX8_three_44 (by decide) (fun c => ?_) (fun c => ?_)
        · rw [if_pos c] at h
          refine r_aload_n G 3 rfl rfl dX8_three_54 ?_
          refine r_iload G 5 rfl dX8_three_55 ?_
          refine r_aload G 7 rfl dX8_three_57 ?_
          obtain ⟨o9, e9, h⟩ := ob h
          refine r_callSv G [.ref (bd p0), .ref (bd p2), .int p4, .ref (bd p6)] (qX8_joins hE p0 hp0 p2 hp2 p4 p6 hp6 _ e9) gX8_three_X8_joins rfl hdX8_joins ⟨Nat.le_of_ble_eq_true rfl, Nat.le_of_ble_eq_true rfl⟩ (Nat.le_of_ble_eq_true rfl) rfl ⟨Nat.le_of_ble_eq_true rfl, Nat.le_of_ble_eq_true rfl⟩ rfl rfl dX8_three_59 (fun s9 hp => ?_)
          have hp := hp.symm
          subst hp
          try dsimp only at h
          exact hret _ _ _ _ _ dX8_three_62 (Option.some.inj h).symm (Nat.le_of_ble_eq_true rfl) (Nat.le_of_ble_eq_true rfl)
        · rw [if_neg c] at h
          refine r_aload_n G 0 rfl rfl dX8_three_47 ?_
          refine r_get G (C := RX8) (T := TX8) (N := 19) kX8_three_X8 67 (mw_MO bd κ _) rfl 18 (by decide) mX8_three_f56 rfl rfl dX8_three_48 ?_
          refine r_goto G (tgt := 55) dX8_three_51 (by decide) ?_
          refine r_iload G 5 rfl dX8_three_55 ?_
          refine r_aload G 7 rfl dX8_three_57 ?_
          obtain ⟨o10, e10, h⟩ := ob h
          refine r_callSv G [.ref (bd p0), .ref (bd 66), .int p4, .ref (bd p6)] (qX8_joins hE p0 hp0 66 (by decide) p4 p6 hp6 _ e10) gX8_three_X8_joins rfl hdX8_joins ⟨Nat.le_of_ble_eq_true rfl, Nat.le_of_ble_eq_true rfl⟩ (Nat.le_of_ble_eq_true rfl) rfl ⟨Nat.le_of_ble_eq_true rfl, Nat.le_of_ble_eq_true rfl⟩ rfl rfl dX8_three_59 (fun s10 hp => ?_)
          have hp := hp.symm
          subst hp
          try dsimp only at h
          exact hret _ _ _ _ _ dX8_three_62 (Option.some.inj h).symm (Nat.le_of_ble_eq_true rfl) (Nat.le_of_ble_eq_true rfl)
  · rw [if_neg c] at h
    refine r_aload_n G 2 rfl rfl dX8_three_5 ?_
    refine r_goto G (tgt := 10) dX8_three_6 (by decide) ?_
    refine r_iload G 6 rfl dX8_three_10 ?_
    refine r_if_eq G (tgt := 19) dX8_three_12 (by decide) (fun c => ?_) (fun c => ?_)
    · rw [if_pos c] at h
      refine r_aload_n G 2 rfl rfl dX8_three_19 ?_
      refine r_iload G 4 rfl dX8_three_20 ?_
      refine r_aload_n G 0 rfl rfl dX8_three_22 ?_
      refine r_get G (C := RX8) (T := TX8) (N := 19) kX8_three_X8 67 (mw_MO bd κ _) rfl 18 (by decide) mX8_three_f56 rfl rfl dX8_three_23 ?_
      obtain ⟨o11, e11, h⟩ := ob h
      refine r_callSv G [.ref (bd p1), .ref (bd p1), .int p3, .ref (bd 66)] (qX8_joins hE p1 hp1 p1 hp1 p3 66 (by decide) _ e11) gX8_three_X8_joins rfl hdX8_joins ⟨Nat.le_of_ble_eq_true rfl, Nat.le_of_ble_eq_true rfl⟩ (Nat.le_of_ble_eq_true rfl) rfl ⟨Nat.le_of_ble_eq_true rfl, Nat.le_of_ble_eq_true rfl⟩ rfl rfl dX8_three_26 (fun s11 hp => ?_)
      have hp := hp.symm
      subst hp
      try dsimp only at h
      refine r_iload G 6 rfl dX8_three_29 ?_
      refine r_if_eq G (tgt := 38) dX8_three_31 (by decide) (fun c => ?_) (fun c => ?_)
      · rw [if_pos c] at h
        refine r_aload_n G 0 rfl rfl dX8_three_38 ?_
        refine r_get G (C := RX8) (T := TX8) (N := 19) kX8_three_X8 67 (mw_MO bd κ _) rfl 18 (by decide) mX8_three_f56 rfl rfl dX8_three_39 ?_
        refine r_iload G 6 rfl dX8_three_42 ?_
        refine r_if_eq G (tgt := 54) dX8_three_44 (by decide) (fun c => ?_) (fun c => ?_)
        · rw [if_pos c] at h
          refine r_aload_n G 3 rfl rfl dX8_three_54 ?_
          refine r_iload G 5 rfl dX8_three_55 ?_
          refine r_aload G 7 rfl dX8_three_57 ?_
          obtain ⟨o12, e12, h⟩ := ob h
          refine r_callSv G [.ref (bd 66), .ref (bd p2), .int p4, .ref (bd p6)] (qX8_joins hE 66 (by decide) p2 hp2 p4 p6 hp6 _ e12) gX8_three_X8_joins rfl hdX8_joins ⟨Nat.le_of_ble_eq_true rfl, Nat.le_of_ble_eq_true rfl⟩ (Nat.le_of_ble_eq_true rfl) rfl ⟨Nat.le_of_ble_eq_true rfl, Nat.le_of_ble_eq_true rfl⟩ rfl rfl dX8_three_59 (fun s12 hp => ?_)
          have hp := hp.symm
          subst hp
          try dsimp only at h
          exact hret _ _ _ _ _ dX8_three_62 (Option.some.inj h).symm (Nat.le_of_ble_eq_true rfl) (Nat.le_of_ble_eq_true rfl)
        · rw [if_neg c] at h
          refine r_aload_n G 0 rfl rfl dX8_three_47 ?_
          refine r_get G (C := RX8) (T := TX8) (N := 19) kX8_three_X8 67 (mw_MO bd κ _) rfl 18 (by decide) mX8_three_f56 rfl rfl dX8_three_48 ?_
          refine r_goto G (tgt := 55) dX8_three_51 (by decide) ?_
          refine r_iload G 5 rfl dX8_three_55 ?_
          refine r_aload G 7 rfl dX8_three_57 ?_
          obtain ⟨o13, e13, h⟩ := ob h
          refine r_callSv G [.ref (bd 66), .ref (bd 66), .int p4, .ref (bd p6)] (qX8_joins hE 66 (by decide) 66 (by decide) p4 p6 hp6 _ e13) gX8_three_X8_joins rfl hdX8_joins ⟨Nat.le_of_ble_eq_true rfl, Nat.le_of_ble_eq_true rfl⟩ (Nat.le_of_ble_eq_true rfl) rfl ⟨Nat.le_of_ble_eq_true rfl, Nat.le_of_ble_eq_true rfl⟩ rfl rfl dX8_three_59 (fun s13 hp => ?_)
          have hp := hp.symm
          subst hp
          try dsimp only at h
          exact hret _ _ _ _ _ dX8_three_62 (Option.some.inj h).symm (Nat.le_of_ble_eq_true rfl) (Nat.le_of_ble_eq_true rfl)
      · rw [if_neg c] at h
        refine r_aload_n G 1 rfl rfl dX8_three_34 ?_
        refine r_goto G (tgt := 42) dX8_three_35 (by decide) ?_
        refine r_iload G 6 rfl dX8_three_42 ?_
        refine r_if_eq G (tgt := 54) dX8_three_44 (by decide) (fun c => ?_) (fun c => ?_)
        · rw [if_pos c] at h
          refine r_aload_n G 3 rfl rfl dX8_three_54 ?_
          refine r_iload G 5 rfl dX8_three_55 ?_
          refine r_aload G 7 rfl dX8_three_57 ?_
          obtain ⟨o14, e14, h⟩ := ob h
          refine r_callSv G [.ref (bd p0), .ref (bd p2), .int p4, .ref (bd p6)] (qX8_joins hE p0 hp0 p2 hp2 p4 p6 hp6 _ e14) gX8_three_X8_joins rfl hdX8_joins ⟨Nat.le_of_ble_eq_true rfl, Nat.le_of_ble_eq_true rfl⟩ (Nat.le_of_ble_eq_true rfl) rfl ⟨Nat.le_of_ble_eq_true rfl, Nat.le_of_ble_eq_true rfl⟩ rfl rfl dX8_three_59 (fun s14 hp => ?_)
          have hp := hp.symm
          subst hp
          try dsimp only at h
          exact hret _ _ _ _ _ dX8_three_62 (Option.some.inj h).symm (Nat.le_of_ble_eq_true rfl) (Nat.le_of_ble_eq_true rfl)
        · rw [if_neg c] at h
          refine r_aload_n G 0 rfl rfl dX8_three_47 ?_
          refine r_get G (C := RX8) (T := TX8) (N := 19) kX8_three_X8 67 (mw_MO bd κ _) rfl 18 (by decide) mX8_three_f56 rfl rfl dX8_three_48 ?_
          refine r_goto G (tgt := 55) dX8_three_51 (by decide) ?_
          refine r_iload G 5 rfl dX8_three_55 ?_
          refine r_aload G 7 rfl dX8_three_57 ?_
          obtain ⟨o15, e15, h⟩ := ob h
          refine r_callSv G [.ref (bd p0), .ref (bd 66), .int p4, .ref (bd p6)] (qX8_joins hE p0 hp0 66 (by decide) p4 p6 hp6 _ e15) gX8_three_X8_joins rfl hdX8_joins ⟨Nat.le_of_ble_eq_true rfl, Nat.le_of_ble_eq_true rfl⟩ (Nat.le_of_ble_eq_true rfl) rfl ⟨Nat.le_of_ble_eq_true rfl, Nat.le_of_ble_eq_true rfl⟩ rfl rfl dX8_three_59 (fun s15 hp => ?_)
          have hp := hp.symm
          subst hp
          try dsimp only at h
          exact hret _ _ _ _ _ dX8_three_62 (Option.some.inj h).symm (Nat.le_of_ble_eq_true rfl) (Nat.le_of_ble_eq_true rfl)
    · rw [if_neg c] at h
      refine r_aload_n G 3 rfl rfl dX8_three_15 ?_
      refine r_goto G (tgt := 20) dX8_three_16 (by decide) ?_
      refine r_iload G 4 rfl dX8_three_20 ?_
      refine r_aload_n G 0 rfl rfl dX8_three_22 ?_
      refine r_get G (C := RX8) (T := TX8) (N := 19) kX8_three_X8 67 (mw_MO bd κ _) rfl 18 (by decide) mX8_three_f56 rfl rfl dX8_three_23 ?_
      obtain ⟨o16, e16, h⟩ := ob h
      refine r_callSv G [.ref (bd p1), .ref (bd p2), .int p3, .ref (bd 66)] (qX8_joins hE p1 hp1 p2 hp2 p3 66 (by decide) _ e16) gX8_three_X8_joins rfl hdX8_joins ⟨Nat.le_of_ble_eq_true rfl, Nat.le_of_ble_eq_true rfl⟩ (Nat.le_of_ble_eq_true rfl) rfl ⟨Nat.le_of_ble_eq_true rfl, Nat.le_of_ble_eq_true rfl⟩ rfl rfl dX8_three_26 (fun s16 hp => ?_)
      have hp := hp.symm
      subst hp
      try dsimp only at h
      refine r_iload G 6 rfl dX8_three_29 ?_
      refine r_if_eq G (tgt := 38) dX8_three_31 (by decide) (fun c => ?_) (fun c => ?_)
      · rw [if_pos c] at h
        refine r_aload_n G 0 rfl rfl dX8_three_38 ?_
        refine r_get G (C := RX8) (T := TX8) (N := 19) kX8_three_X8 67 (mw_MO bd κ _) rfl 18 (by decide) mX8_three_f56 rfl rfl dX8_three_39 ?_
        refine r_iload G 6 rfl dX8_three_42 ?_
        refine r_if_eq G (tgt := 54) dX8_three_44 (by decide) (fun c => ?_) (fun c => ?_)
        · rw [if_pos c] at h
          refine r_aload_n G 3 rfl rfl dX8_three_54 ?_
          refine r_iload G 5 rfl dX8_three_55 ?_
          refine r_aload G 7 rfl dX8_three_57 ?_
          obtain ⟨o17, e17, h⟩ := ob h
          refine r_callSv G [.ref (bd 66), .ref (bd p2), .int p4, .ref (bd p6)] (qX8_joins hE 66 (by decide) p2 hp2 p4 p6 hp6 _ e17) gX8_three_X8_joins rfl hdX8_joins ⟨Nat.le_of_ble_eq_true rfl, Nat.le_of_ble_eq_true rfl⟩ (Nat.le_of_ble_eq_true rfl) rfl ⟨Nat.le_of_ble_eq_true rfl, Nat.le_of_ble_eq_true rfl⟩ rfl rfl dX8_three_59 (fun s17 hp => ?_)
          have hp := hp.symm
          subst hp
          try dsimp only at h
          exact hret _ _ _ _ _ dX8_three_62 (Option.some.inj h).symm (Nat.le_of_ble_eq_true rfl) (Nat.le_of_ble_eq_true rfl)
        · rw [if_neg c] at h
          refine r_aload_n G 0 rfl rfl dX8_three_47 ?_
          refine r_get G (C := RX8) (T := TX8) (N := 19) kX8_three_X8 67 (mw_MO bd κ _) rfl 18 (by decide) mX8_three_f56 rfl rfl dX8_three_48 ?_
          refine r_goto G (tgt := 55) dX8_three_51 (by decide) ?_
          refine r_iload G 5 rfl dX8_three_55 ?_
          refine r_aload G 7 rfl dX8_three_57 ?_
          obtain ⟨o18, e18, h⟩ := ob h
          refine r_callSv G [.ref (bd 66), .ref (bd 66), .int p4, .ref (bd p6)] (qX8_joins hE 66 (by decide) 66 (by decide) p4 p6 hp6 _ e18) gX8_three_X8_joins rfl hdX8_joins ⟨Nat.le_of_ble_eq_true rfl, Nat.le_of_ble_eq_true rfl⟩ (Nat.le_of_ble_eq_true rfl) rfl ⟨Nat.le_of_ble_eq_true rfl, Nat.le_of_ble_eq_true rfl⟩ rfl rfl dX8_three_59 (fun s18 hp => ?_)
          have hp := hp.symm
          subst hp
          try dsimp only at h
          exact hret _ _ _ _ _ dX8_three_62 (Option.some.inj h).symm (Nat.le_of_ble_eq_true rfl) (Nat.le_of_ble_eq_true rfl)
      · rw [if_neg c] at h
        refine r_aload_n G 1 rfl rfl dX8_three_34 ?_
        refine r_goto G (tgt := 42) dX8_three_35 (by decide) ?_
        refine r_iload G 6 rfl dX8_three_42 ?_
        refine r_if_eq G (tgt := 54) dX8_three_44 (by decide) (fun c => ?_) (fun c => ?_)
        · rw [if_pos c] at h
          refine r_aload_n G 3 rfl rfl dX8_three_54 ?_
          refine r_iload G 5 rfl dX8_three_55 ?_
          refine r_aload G 7 rfl dX8_three_57 ?_
          obtain ⟨o19, e19, h⟩ := ob h
          refine r_callSv G [.ref (bd p0), .ref (bd p2), .int p4, .ref (bd p6)] (qX8_joins hE p0 hp0 p2 hp2 p4 p6 hp6 _ e19) gX8_three_X8_joins rfl hdX8_joins ⟨Nat.le_of_ble_eq_true rfl, Nat.le_of_ble_eq_true rfl⟩ (Nat.le_of_ble_eq_true rfl) rfl ⟨Nat.le_of_ble_eq_true rfl, Nat.le_of_ble_eq_true rfl⟩ rfl rfl dX8_three_59 (fun s19 hp => ?_)
          have hp := hp.symm
          subst hp
          try dsimp only at h
          exact hret _ _ _ _ _ dX8_three_62 (Option.some.inj h).symm (Nat.le_of_ble_eq_true rfl) (Nat.le_of_ble_eq_true rfl)
        · rw [if_neg c] at h
          refine r_aload_n G 0 rfl rfl dX8_three_47 ?_
          refine r_get G (C := RX8) (T := TX8) (N := 19) kX8_three_X8 67 (mw_MO bd κ _) rfl 18 (by decide) mX8_three_f56 rfl rfl dX8_three_48 ?_
          refine r_goto G (tgt := 55) dX8_three_51 (by decide) ?_
          refine r_iload G 5 rfl dX8_three_55 ?_
          refine r_aload G 7 rfl dX8_three_57 ?_
          obtain ⟨o20, e20, h⟩ := ob h
          refine r_callSv G [.ref (bd p0), .ref (bd 66), .int p4, .ref (bd p6)] (qX8_joins hE p0 hp0 66 (by decide) p4 p6 hp6 _ e20) gX8_three_X8_joins rfl hdX8_joins ⟨Nat.le_of_ble_eq_true rfl, Nat.le_of_ble_eq_true rfl⟩ (Nat.le_of_ble_eq_true rfl) rfl ⟨Nat.le_of_ble_eq_true rfl, Nat.le_of_ble_eq_true rfl⟩ rfl rfl dX8_three_59 (fun s20 hp => ?_)
          have hp := hp.symm
          subst hp
          try dsimp only at h
          exact hret _ _ _ _ _ dX8_three_62 (Option.some.inj h).symm (Nat.le_of_ble_eq_true rfl) (Nat.le_of_ble_eq_true rfl)
abbrev rmX8_others : Room := { frames := 2, cells := 0, slots := 0, locals := 43 }
set_option maxRecDepth 20000 in
theorem kX8_others_X8 : ∀ w ∈ u_ws RX8 TX8 19, w ∈ wsX8_others := by decide +kernel
set_option maxRecDepth 20000 in
theorem mX8_others_f50 : Cond.fieldLink RX8 50 "SetCouncilModel" "left" "[Z" ∈ wsX8_others := by decide +kernel
set_option maxRecDepth 20000 in
theorem mX8_others_f53 : Cond.fieldLink RX8 53 "SetCouncilModel" "right" "[Z" ∈ wsX8_others := by decide +kernel
set_option maxHeartbeats 4000000 in
set_option maxRecDepth 100000 in
theorem qX8_others {E : evT} {l : Launch} {D : va_G} {bd : Nat → Nat} {κ : Nat → ClassId} (hE : EvOk E) (s : mS) {o : (Int32 × mS)} (h : fX8_others s = some o) : Ci l yX8_others wsX8_others rmX8_others (mW bd κ) E D (tyA κ) .int [.ref (bd 67)] s (fun r s2 => o = (r, s2)) := by
  rw [fX8_others] at h
  refine s_i (cc := cX8_others) (nL := 1) (own := RX8) hE (mW_WA bd κ) (plainFor_of_name (by decide)) rfl rfl (Nat.le_of_ble_eq_true rfl) (fun Γ G hret => ?_)
  refine r_aload_n G 0 rfl rfl dX8_others_0 ?_
  refine r_get G (C := RX8) (T := TX8) (N := 19) kX8_others_X8 67 (mw_MO bd κ _) rfl 16 (by decide) mX8_others_f50 rfl rfl dX8_others_1 ?_
  refine r_aload_n G 0 rfl rfl dX8_others_4 ?_
  refine r_get G (C := RX8) (T := TX8) (N := 19) kX8_others_X8 67 (mw_MO bd κ _) rfl 17 (by decide) mX8_others_f53 rfl rfl dX8_others_5 ?_
  obtain ⟨o1, e1, h⟩ := ob h
  refine r_callSi G [.ref (bd 64), .ref (bd 65)] (qX8_areSame hE 64 (by decide) 65 (by decide) _ e1) gX8_others_X8_areSame rfl hdX8_areSame ⟨Nat.le_of_ble_eq_true rfl, Nat.le_of_ble_eq_true rfl⟩ (Nat.le_of_ble_eq_true rfl) rfl ⟨Nat.le_of_ble_eq_true rfl, Nat.le_of_ble_eq_true rfl⟩ rfl rfl dX8_others_8 (fun r1 s1 hp hn1 => ?_)
  subst hp
  try dsimp only at h
  refine r_if_eq G (tgt := 18) dX8_others_11 (by decide) (fun c => ?_) (fun c => ?_)
  · rw [if_pos c] at h
    refine r_iconst G (v := 1) (by decide) dX8_others_18 ?_
    exact hret _ _ _ _ _ _ dX8_others_19 (Option.some.inj h).symm rfl (Nat.le_of_ble_eq_true rfl) (Nat.le_of_ble_eq_true rfl)
  · rw [if_neg c] at h
    refine r_iconst G (v := 0) (by decide) dX8_others_14 ?_
    refine r_goto G (tgt := 19) dX8_others_15 (by decide) ?_
    exact hret _ _ _ _ _ _ dX8_others_19 (Option.some.inj h).symm rfl (Nat.le_of_ble_eq_true rfl) (Nat.le_of_ble_eq_true rfl)
abbrev rmX8_ordersAndBrackets : Room := { frames := 3, cells := 0, slots := 0, locals := 63 }
set_option maxRecDepth 20000 in
theorem kX8_ordersAndBrackets_X8 : ∀ w ∈ u_ws RX8 TX8 19, w ∈ wsX8_ordersAndBrackets := by decide +kernel
set_option maxRecDepth 20000 in
theorem mX8_ordersAndBrackets_f50 : Cond.fieldLink RX8 50 "SetCouncilModel" "left" "[Z" ∈ wsX8_ordersAndBrackets := by decide +kernel
set_option maxRecDepth 20000 in
theorem mX8_ordersAndBrackets_f53 : Cond.fieldLink RX8 53 "SetCouncilModel" "right" "[Z" ∈ wsX8_ordersAndBrackets := by decide +kernel
theorem hdX8_others : yX8_others.cls = RX8 ∧ yX8_others.cls ≠ "java/lang/invoke/MethodHandle" ∧ yX8_others.cls ≠ "java/lang/invoke/VarHandle" ∧ (parseMethodDescriptor yX8_others.desc).map (fun d => d.parameters.length) = some 0 := by decide +kernel
theorem hdX8_three : yX8_three.cls = RX8 ∧ yX8_three.cls ≠ "java/lang/invoke/MethodHandle" ∧ yX8_three.cls ≠ "java/lang/invoke/VarHandle" ∧ (parseMethodDescriptor yX8_three.desc).map (fun d => d.parameters.length) = some 7 := by decide +kernel
set_option maxHeartbeats 4000000 in
set_option maxRecDepth 100000 in
theorem qX8_ordersAndBrackets {E : evT} {l : Launch} {D : va_G} {bd : Nat → Nat} {κ : Nat → ClassId} (hE : EvOk E) (p0 : Nat) (hp0 : p0 < 67) (p1 : Nat) (hp1 : p1 < 67) (p2 : Nat) (hp2 : p2 < 67) (p3 : Int32) (s : mS) {o : (Int32 × mS)} (h : fX8_ordersAndBrackets p0 p1 p2 p3 s = some o) : Ci l yX8_ordersAndBrackets wsX8_ordersAndBrackets rmX8_ordersAndBrackets (mW bd κ) E D (tyA κ) .int [.ref (bd 67), .ref (bd p0), .ref (bd p1), .ref (bd p2), .int p3] s (fun r s2 => o = (r, s2)) := by
  rw [fX8_ordersAndBrackets] at h
  refine s_i (cc := cX8_ordersAndBrackets) (nL := 6) (own := RX8) hE (mW_WA bd κ) (plainFor_of_name (by decide)) rfl rfl (Nat.le_of_ble_eq_true rfl) (fun Γ G hret => ?_)
  refine r_aload_n G 1 rfl rfl dX8_ordersAndBrackets_0 ?_
  refine r_aload_n G 2 rfl rfl dX8_ordersAndBrackets_1 ?_
  refine r_iload G 4 rfl dX8_ordersAndBrackets_2 ?_
  refine r_aload_n G 0 rfl rfl dX8_ordersAndBrackets_4 ?_
  refine r_get G (C := RX8) (T := TX8) (N := 19) kX8_ordersAndBrackets_X8 67 (mw_MO bd κ _) rfl 16 (by decide) mX8_ordersAndBrackets_f50 rfl rfl dX8_ordersAndBrackets_5 ?_
  obtain ⟨o1, e1, h⟩ := ob h
  refine r_callSv G [.ref (bd p0), .ref (bd p1), .int p3, .ref (bd 64)] (qX8_joins hE p0 hp0 p1 hp1 p3 64 (by decide) _ e1) gX8_ordersAndBrackets_X8_joins rfl hdX8_joins ⟨Nat.le_of_ble_eq_true rfl, Nat.le_of_ble_eq_true rfl⟩ (Nat.le_of_ble_eq_true rfl) rfl ⟨Nat.le_of_ble_eq_true rfl, Nat.le_of_ble_eq_true rfl⟩ rfl rfl dX8_ordersAndBrackets_8 (fun s1 hp => ?_)
  have hp := hp.symm
  subst hp
  try dsimp only at h
  refine r_aload_n G 2 rfl rfl dX8_ordersAndBrackets_11 ?_
  refine r_aload_n G 1 rfl rfl dX8_ordersAndBrackets_12 ?_
  refine r_iload G 4 rfl dX8_ordersAndBrackets_13 ?_
  refine r_aload_n G 0 rfl rfl dX8_ordersAndBrackets_15 ?_
  refine r_get G (C := RX8) (T := TX8) (N := 19) kX8_ordersAndBrackets_X8 67 (mw_MO bd κ _) rfl 17 (by decide) mX8_ordersAndBrackets_f53 rfl rfl dX8_ordersAndBrackets_16 ?_
  obtain ⟨o2, e2, h⟩ := ob h
  refine r_callSv G [.ref (bd p1), .ref (bd p0), .int p3, .ref (bd 65)] (qX8_joins hE p1 hp1 p0 hp0 p3 65 (by decide) _ e2) gX8_ordersAndBrackets_X8_joins rfl hdX8_joins ⟨Nat.le_of_ble_eq_true rfl, Nat.le_of_ble_eq_true rfl⟩ (Nat.le_of_ble_eq_true rfl) rfl ⟨Nat.le_of_ble_eq_true rfl, Nat.le_of_ble_eq_true rfl⟩ rfl rfl dX8_ordersAndBrackets_19 (fun s2 hp => ?_)
  have hp := hp.symm
  subst hp
  try dsimp only at h
  refine r_aload_n G 0 rfl rfl dX8_ordersAndBrackets_22 ?_
  obtain ⟨o3, e3, h⟩ := ob h
  refine r_callVi G [] (qX8_others hE _ e3) ⟨67, 8, _, _, rfl, (mw_MO bd κ _), rfl⟩ gX8_ordersAndBrackets_X8_others rfl hdX8_others ⟨Nat.le_of_ble_eq_true rfl, Nat.le_of_ble_eq_true rfl⟩ (Nat.le_of_ble_eq_true rfl) rfl ⟨Nat.le_of_ble_eq_true rfl, Nat.le_of_ble_eq_true rfl⟩ rfl rfl dX8_ordersAndBrackets_23 (fun r3 s3 hp hn3 => ?_)
  subst hp
  try dsimp only at h
  refine r_istore G (lv' := [(0, .ref (bd 67)), (1, .ref (bd p0)), (2, .ref (bd p1)), (3, .ref (bd p2)), (4, .int p3), (5, .int r3)]) [1, 2, 3, 4, 5, 0] rfl (by decide) dX8_ordersAndBrackets_26 ?_
  refine r_aload_n G 0 rfl rfl dX8_ordersAndBrackets_28 ?_
  refine r_aload_n G 1 rfl rfl dX8_ordersAndBrackets_29 ?_
  refine r_aload_n G 2 rfl rfl dX8_ordersAndBrackets_30 ?_
  refine r_aload_n G 3 rfl rfl dX8_ordersAndBrackets_31 ?_
  refine r_iload G 4 rfl dX8_ordersAndBrackets_32 ?_
  refine r_iload G 4 rfl dX8_ordersAndBrackets_34 ?_
  refine r_iconst G (v := 0) (by decide) dX8_ordersAndBrackets_36 ?_
  refine r_aload_n G 0 rfl rfl dX8_ordersAndBrackets_37 ?_
  refine r_get G (C := RX8) (T := TX8) (N := 19) kX8_ordersAndBrackets_X8 67 (mw_MO bd κ _) rfl 16 (by decide) mX8_ordersAndBrackets_f50 rfl rfl dX8_ordersAndBrackets_38 ?_
  obtain ⟨o4, e4, h⟩ := ob h
  refine r_callVv G [.ref (bd p0), .ref (bd p1), .ref (bd p2), .int p3, .int p3, .int 0, .ref (bd 64)] (qX8_three hE p0 hp0 p1 hp1 p2 hp2 p3 p3 (0 : Int32) 64 (by decide) _ e4) ⟨67, 8, _, _, rfl, (mw_MO bd κ _), rfl⟩ gX8_ordersAndBrackets_X8_three rfl hdX8_three ⟨Nat.le_of_ble_eq_true rfl, Nat.le_of_ble_eq_true rfl⟩ (Nat.le_of_ble_eq_true rfl) rfl ⟨Nat.le_of_ble_eq_true rfl, Nat.le_of_ble_eq_true rfl⟩ rfl rfl dX8_ordersAndBrackets_41 (fun s4 hp => ?_)
  have hp := hp.symm
  subst hp
  try dsimp only at h
  refine r_aload_n G 0 rfl rfl dX8_ordersAndBrackets_44 ?_
  refine r_aload_n G 1 rfl rfl dX8_ordersAndBrackets_45 ?_
  refine r_aload_n G 2 rfl rfl dX8_ordersAndBrackets_46 ?_
  refine r_aload_n G 3 rfl rfl dX8_ordersAndBrackets_47 ?_
  refine r_iload G 4 rfl dX8_ordersAndBrackets_48 ?_
  refine r_iload G 4 rfl dX8_ordersAndBrackets_50 ?_
  refine r_iconst G (v := 1) (by decide) dX8_ordersAndBrackets_52 ?_
  refine r_aload_n G 0 rfl rfl dX8_ordersAndBrackets_53 ?_
  refine r_get G (C := RX8) (T := TX8) (N := 19) kX8_ordersAndBrackets_X8 67 (mw_MO bd κ _) rfl 17 (by decide) mX8_ordersAndBrackets_f53 rfl rfl dX8_ordersAndBrackets_54 ?_
  obtain ⟨o5, e5, h⟩ := ob h
  refine r_callVv G [.ref (bd p0), .ref (bd p1), .ref (bd p2), .int p3, .int p3, .int 1, .ref (bd 65)] (qX8_three hE p0 hp0 p1 hp1 p2 hp2 p3 p3 (1 : Int32) 65 (by decide) _ e5) ⟨67, 8, _, _, rfl, (mw_MO bd κ _), rfl⟩ gX8_ordersAndBrackets_X8_three rfl hdX8_three ⟨Nat.le_of_ble_eq_true rfl, Nat.le_of_ble_eq_true rfl⟩ (Nat.le_of_ble_eq_true rfl) rfl ⟨Nat.le_of_ble_eq_true rfl, Nat.le_of_ble_eq_true rfl⟩ rfl rfl dX8_ordersAndBrackets_57 (fun s5 hp => ?_)
  have hp := hp.symm
  subst hp
  try dsimp only at h
  refine r_iload G 5 rfl dX8_ordersAndBrackets_60 ?_
  refine r_aload_n G 0 rfl rfl dX8_ordersAndBrackets_62 ?_
  obtain ⟨o6, e6, h⟩ := ob h
  refine r_callVi G [] (qX8_others hE _ e6) ⟨67, 8, _, _, rfl, (mw_MO bd κ _), rfl⟩ gX8_ordersAndBrackets_X8_others rfl hdX8_others ⟨Nat.le_of_ble_eq_true rfl, Nat.le_of_ble_eq_true rfl⟩ (Nat.le_of_ble_eq_true rfl) rfl ⟨Nat.le_of_ble_eq_true rfl, Nat.le_of_ble_eq_true rfl⟩ rfl rfl dX8_ordersAndBrackets_63 (fun r6 s6 hp hn6 => ?_)
  subst hp
  try dsimp only at h
  refine r_iadd G dX8_ordersAndBrackets_66 ?_
  refine r_istore G (lv' := [(0, .ref (bd 67)), (1, .ref (bd p0)), (4, .int p3), (5, .int (r3 + r6))]) [1, 2, 5, 0] rfl (by decide) dX8_ordersAndBrackets_67 ?_
  refine r_aload_n G 1 rfl rfl dX8_ordersAndBrackets_69 ?_
  refine r_aload_n G 1 rfl rfl dX8_ordersAndBrackets_70 ?_
  refine r_iload G 2 rfl dX8_ordersAndBrackets_71 ?_
  refine r_aload_n G 0 rfl rfl dX8_ordersAndBrackets_73 ?_
  refine r_get G (C := RX8) (T := TX8) (N := 19) kX8_ordersAndBrackets_X8 67 (mw_MO bd κ _) rfl 16 (by decide) mX8_ordersAndBrackets_f50 rfl rfl dX8_ordersAndBrackets_74 ?_
  obtain ⟨o7, e7, h⟩ := ob h
  refine r_callSv G [.ref (bd p0), .ref (bd p0), .int p3, .ref (bd 64)] (qX8_joins hE p0 hp0 p0 hp0 p3 64 (by decide) _ e7) gX8_ordersAndBrackets_X8_joins rfl hdX8_joins ⟨Nat.le_of_ble_eq_true rfl, Nat.le_of_ble_eq_true rfl⟩ (Nat.le_of_ble_eq_true rfl) rfl ⟨Nat.le_of_ble_eq_true rfl, Nat.le_of_ble_eq_true rfl⟩ rfl rfl dX8_ordersAndBrackets_77 (fun s7 hp => ?_)
  have hp := hp.symm
  subst hp
  try dsimp only at h
  refine r_aload_n G 1 rfl rfl dX8_ordersAndBrackets_80 ?_
  refine r_aload_n G 0 rfl rfl dX8_ordersAndBrackets_81 ?_
  refine r_get G (C := RX8) (T := TX8) (N := 19) kX8_ordersAndBrackets_X8 67 (mw_MO bd κ _) rfl 17 (by decide) mX8_ordersAndBrackets_f53 rfl rfl dX8_ordersAndBrackets_82 ?_
  obtain ⟨o8, e8, h⟩ := ob h
  refine r_callSv G [.ref (bd p0), .ref (bd 65)] (qX8_copies hE p0 hp0 65 (by decide) _ e8) gX8_ordersAndBrackets_X8_copies rfl hdX8_copies ⟨Nat.le_of_ble_eq_true rfl, Nat.le_of_ble_eq_true rfl⟩ (Nat.le_of_ble_eq_true rfl) rfl ⟨Nat.le_of_ble_eq_true rfl, Nat.le_of_ble_eq_true rfl⟩ rfl rfl dX8_ordersAndBrackets_85 (fun s8 hp => ?_)
  have hp := hp.symm
  subst hp
  try dsimp only at h
  refine r_iload G 3 rfl dX8_ordersAndBrackets_88 ?_
  refine r_aload_n G 0 rfl rfl dX8_ordersAndBrackets_90 ?_
  obtain ⟨o9, e9, h⟩ := ob h
  refine r_callVi G [] (qX8_others hE _ e9) ⟨67, 8, _, _, rfl, (mw_MO bd κ _), rfl⟩ gX8_ordersAndBrackets_X8_others rfl hdX8_others ⟨Nat.le_of_ble_eq_true rfl, Nat.le_of_ble_eq_true rfl⟩ (Nat.le_of_ble_eq_true rfl) rfl ⟨Nat.le_of_ble_eq_true rfl, Nat.le_of_ble_eq_true rfl⟩ rfl rfl dX8_ordersAndBrackets_91 (fun r9 s9 hp hn9 => ?_)
  subst hp
  try dsimp only at h
  refine r_iadd G dX8_ordersAndBrackets_94 ?_
  exact hret _ _ _ _ _ _ dX8_ordersAndBrackets_95 (Option.some.inj h).symm rfl (Nat.le_of_ble_eq_true rfl) (Nat.le_of_ble_eq_true rfl)
abbrev rmX8_parts : Room := { frames := 3, cells := 0, slots := 0, locals := 63 }
set_option maxRecDepth 20000 in
theorem kX8_parts_X8 : ∀ w ∈ u_ws RX8 TX8 19, w ∈ wsX8_parts := by decide +kernel
set_option maxRecDepth 20000 in
theorem mX8_parts_f50 : Cond.fieldLink RX8 50 "SetCouncilModel" "left" "[Z" ∈ wsX8_parts := by decide +kernel
set_option maxRecDepth 20000 in
theorem mX8_parts_f53 : Cond.fieldLink RX8 53 "SetCouncilModel" "right" "[Z" ∈ wsX8_parts := by decide +kernel
set_option maxRecDepth 20000 in
theorem mX8_parts_f56 : Cond.fieldLink RX8 56 "SetCouncilModel" "spare" "[Z" ∈ wsX8_parts := by decide +kernel
set_option maxHeartbeats 4000000 in
set_option maxRecDepth 100000 in
theorem qX8_parts {E : evT} {l : Launch} {D : va_G} {bd : Nat → Nat} {κ : Nat → ClassId} (hE : EvOk E) (p0 : Nat) (hp0 : p0 < 67) (p1 : Nat) (hp1 : p1 < 67) (p2 : Nat) (hp2 : p2 < 67) (p3 : Int32) (p4 : Int32) (s : mS) {o : (Int32 × mS)} (h : fX8_parts p0 p1 p2 p3 p4 s = some o) : Ci l yX8_parts wsX8_parts rmX8_parts (mW bd κ) E D (tyA κ) .int [.ref (bd 67), .ref (bd p0), .ref (bd p1), .ref (bd p2), .int p3, .int p4] s (fun r s2 => o = (r, s2)) := by
  rw [fX8_parts] at h
  refine s_i (cc := cX8_parts) (nL := 6) (own := RX8) hE (mW_WA bd κ) (plainFor_of_name (by decide)) rfl rfl (Nat.le_of_ble_eq_true rfl) (fun Γ G hret => ?_)
  refine r_aload_n G 0 rfl rfl dX8_parts_0 ?_
  refine r_aload_n G 1 rfl rfl dX8_parts_1 ?_
  refine r_aload_n G 2 rfl rfl dX8_parts_2 ?_
  refine r_aload_n G 3 rfl rfl dX8_parts_3 ?_
  refine r_iload G 5 rfl dX8_parts_4 ?_
  refine r_iload G 4 rfl dX8_parts_6 ?_
  refine r_iconst G (v := 1) (by decide) dX8_parts_8 ?_
  refine r_aload_n G 0 rfl rfl dX8_parts_9 ?_
  refine r_get G (C := RX8) (T := TX8) (N := 19) kX8_parts_X8 67 (mw_MO bd κ _) rfl 16 (by decide) mX8_parts_f50 rfl rfl dX8_parts_10 ?_
  obtain ⟨o1, e1, h⟩ := ob h
  refine r_callVv G [.ref (bd p0), .ref (bd p1), .ref (bd p2), .int p4, .int p3, .int 1, .ref (bd 64)] (qX8_three hE p0 hp0 p1 hp1 p2 hp2 p4 p3 (1 : Int32) 64 (by decide) _ e1) ⟨67, 8, _, _, rfl, (mw_MO bd κ _), rfl⟩ gX8_parts_X8_three rfl hdX8_three ⟨Nat.le_of_ble_eq_true rfl, Nat.le_of_ble_eq_true rfl⟩ (Nat.le_of_ble_eq_true rfl) rfl ⟨Nat.le_of_ble_eq_true rfl, Nat.le_of_ble_eq_true rfl⟩ rfl rfl dX8_parts_13 (fun s1 hp => ?_)
  have hp := hp.symm
  subst hp
  try dsimp only at h
  refine r_aload_n G 1 rfl rfl dX8_parts_16 ?_
  refine r_aload_n G 2 rfl rfl dX8_parts_17 ?_
  refine r_iload G 4 rfl dX8_parts_18 ?_
  refine r_aload_n G 0 rfl rfl dX8_parts_20 ?_
  refine r_get G (C := RX8) (T := TX8) (N := 19) kX8_parts_X8 67 (mw_MO bd κ _) rfl 17 (by decide) mX8_parts_f53 rfl rfl dX8_parts_21 ?_
  obtain ⟨o2, e2, h⟩ := ob h
  refine r_callSv G [.ref (bd p0), .ref (bd p1), .int p3, .ref (bd 65)] (qX8_joins hE p0 hp0 p1 hp1 p3 65 (by decide) _ e2) gX8_parts_X8_joins rfl hdX8_joins ⟨Nat.le_of_ble_eq_true rfl, Nat.le_of_ble_eq_true rfl⟩ (Nat.le_of_ble_eq_true rfl) rfl ⟨Nat.le_of_ble_eq_true rfl, Nat.le_of_ble_eq_true rfl⟩ rfl rfl dX8_parts_24 (fun s2 hp => ?_)
  have hp := hp.symm
  subst hp
  try dsimp only at h
  refine r_aload_n G 1 rfl rfl dX8_parts_27 ?_
  refine r_aload_n G 3 rfl rfl dX8_parts_28 ?_
  refine r_iload G 4 rfl dX8_parts_29 ?_
  refine r_aload_n G 0 rfl rfl dX8_parts_31 ?_
  refine r_get G (C := RX8) (T := TX8) (N := 19) kX8_parts_X8 67 (mw_MO bd κ _) rfl 18 (by decide) mX8_parts_f56 rfl rfl dX8_parts_32 ?_
  obtain ⟨o3, e3, h⟩ := ob h
  refine r_callSv G [.ref (bd p0), .ref (bd p2), .int p3, .ref (bd 66)] (qX8_joins hE p0 hp0 p2 hp2 p3 66 (by decide) _ e3) gX8_parts_X8_joins rfl hdX8_joins ⟨Nat.le_of_ble_eq_true rfl, Nat.le_of_ble_eq_true rfl⟩ (Nat.le_of_ble_eq_true rfl) rfl ⟨Nat.le_of_ble_eq_true rfl, Nat.le_of_ble_eq_true rfl⟩ rfl rfl dX8_parts_35 (fun s3 hp => ?_)
  have hp := hp.symm
  subst hp
  try dsimp only at h
  refine r_aload_n G 0 rfl rfl dX8_parts_38 ?_
  refine r_get G (C := RX8) (T := TX8) (N := 19) kX8_parts_X8 67 (mw_MO bd κ _) rfl 17 (by decide) mX8_parts_f53 rfl rfl dX8_parts_39 ?_
  refine r_aload_n G 0 rfl rfl dX8_parts_42 ?_
  refine r_get G (C := RX8) (T := TX8) (N := 19) kX8_parts_X8 67 (mw_MO bd κ _) rfl 18 (by decide) mX8_parts_f56 rfl rfl dX8_parts_43 ?_
  refine r_iload G 5 rfl dX8_parts_46 ?_
  refine r_aload_n G 0 rfl rfl dX8_parts_48 ?_
  refine r_get G (C := RX8) (T := TX8) (N := 19) kX8_parts_X8 67 (mw_MO bd κ _) rfl 17 (by decide) mX8_parts_f53 rfl rfl dX8_parts_49 ?_
  obtain ⟨o4, e4, h⟩ := ob h
  refine r_callSv G [.ref (bd 65), .ref (bd 66), .int p4, .ref (bd 65)] (qX8_joins hE 65 (by decide) 66 (by decide) p4 65 (by decide) _ e4) gX8_parts_X8_joins rfl hdX8_joins ⟨Nat.le_of_ble_eq_true rfl, Nat.le_of_ble_eq_true rfl⟩ (Nat.le_of_ble_eq_true rfl) rfl ⟨Nat.le_of_ble_eq_true rfl, Nat.le_of_ble_eq_true rfl⟩ rfl rfl dX8_parts_52 (fun s4 hp => ?_)
  have hp := hp.symm
  subst hp
  try dsimp only at h
  refine r_aload_n G 0 rfl rfl dX8_parts_55 ?_
  obtain ⟨o5, e5, h⟩ := ob h
  refine r_callVi G [] (qX8_others hE _ e5) ⟨67, 8, _, _, rfl, (mw_MO bd κ _), rfl⟩ gX8_parts_X8_others rfl hdX8_others ⟨Nat.le_of_ble_eq_true rfl, Nat.le_of_ble_eq_true rfl⟩ (Nat.le_of_ble_eq_true rfl) rfl ⟨Nat.le_of_ble_eq_true rfl, Nat.le_of_ble_eq_true rfl⟩ rfl rfl dX8_parts_56 (fun r5 s5 hp hn5 => ?_)
  subst hp
  try dsimp only at h
  exact hret _ _ _ _ _ _ dX8_parts_59 (Option.some.inj h).symm rfl (Nat.le_of_ble_eq_true rfl) (Nat.le_of_ble_eq_true rfl)
abbrev rmX8_within : Room := { frames := 2, cells := 0, slots := 0, locals := 43 }
set_option maxRecDepth 20000 in
theorem kX8_within_X8 : ∀ w ∈ u_ws RX8 TX8 19, w ∈ wsX8_within := by decide +kernel
set_option maxRecDepth 20000 in
theorem mX8_within_f50 : Cond.fieldLink RX8 50 "SetCouncilModel" "left" "[Z" ∈ wsX8_within := by decide +kernel
set_option maxHeartbeats 4000000 in
set_option maxRecDepth 100000 in
theorem qX8_within {E : evT} {l : Launch} {D : va_G} {bd : Nat → Nat} {κ : Nat → ClassId} (hE : EvOk E) (p0 : Nat) (hp0 : p0 < 67) (p1 : Nat) (hp1 : p1 < 67) (s : mS) {o : (Int32 × mS)} (h : fX8_within p0 p1 s = some o) : Ci l yX8_within wsX8_within rmX8_within (mW bd κ) E D (tyA κ) .int [.ref (bd 67), .ref (bd p0), .ref (bd p1)] s (fun r s2 => o = (r, s2)) := by
  rw [fX8_within] at h
  refine s_i (cc := cX8_within) (nL := 4) (own := RX8) hE (mW_WA bd κ) (plainFor_of_name (by decide)) rfl rfl (Nat.le_of_ble_eq_true rfl) (fun Γ G hret => ?_)
  refine r_aload_n G 1 rfl rfl dX8_within_0 ?_
  refine r_aload_n G 2 rfl rfl dX8_within_1 ?_
  refine r_iconst G (v := 0) (by decide) dX8_within_2 ?_
  refine r_aload_n G 0 rfl rfl dX8_within_3 ?_
  refine r_get G (C := RX8) (T := TX8) (N := 19) kX8_within_X8 67 (mw_MO bd κ _) rfl 16 (by decide) mX8_within_f50 rfl rfl dX8_within_4 ?_
  obtain ⟨o1, e1, h⟩ := ob h
  refine r_callSv G [.ref (bd p0), .ref (bd p1), .int 0, .ref (bd 64)] (qX8_joins hE p0 hp0 p1 hp1 (0 : Int32) 64 (by decide) _ e1) gX8_within_X8_joins rfl hdX8_joins ⟨Nat.le_of_ble_eq_true rfl, Nat.le_of_ble_eq_true rfl⟩ (Nat.le_of_ble_eq_true rfl) rfl ⟨Nat.le_of_ble_eq_true rfl, Nat.le_of_ble_eq_true rfl⟩ rfl rfl dX8_within_7 (fun s1 hp => ?_)
  have hp := hp.symm
  subst hp
  try dsimp only at h
  refine r_aload_n G 0 rfl rfl dX8_within_10 ?_
  refine r_get G (C := RX8) (T := TX8) (N := 19) kX8_within_X8 67 (mw_MO bd κ _) rfl 16 (by decide) mX8_within_f50 rfl rfl dX8_within_11 ?_
  refine r_aload_n G 2 rfl rfl dX8_within_14 ?_
  obtain ⟨o2, e2, h⟩ := ob h
  refine r_callSi G [.ref (bd 64), .ref (bd p1)] (qX8_areSame hE 64 (by decide) p1 hp1 _ e2) gX8_within_X8_areSame rfl hdX8_areSame ⟨Nat.le_of_ble_eq_true rfl, Nat.le_of_ble_eq_true rfl⟩ (Nat.le_of_ble_eq_true rfl) rfl ⟨Nat.le_of_ble_eq_true rfl, Nat.le_of_ble_eq_true rfl⟩ rfl rfl dX8_within_15 (fun r2 s2 hp hn2 => ?_)
  subst hp
  try dsimp only at h
  refine r_istore_n G (lv' := [(0, .ref (bd 67)), (1, .ref (bd p0)), (2, .ref (bd p1)), (3, .int r2)]) [1, 2, 3, 0] rfl rfl (by decide) dX8_within_18 ?_
  refine r_aload_n G 1 rfl rfl dX8_within_19 ?_
  refine r_aload_n G 2 rfl rfl dX8_within_20 ?_
  refine r_iconst G (v := 1) (by decide) dX8_within_21 ?_
  refine r_aload_n G 0 rfl rfl dX8_within_22 ?_
  refine r_get G (C := RX8) (T := TX8) (N := 19) kX8_within_X8 67 (mw_MO bd κ _) rfl 16 (by decide) mX8_within_f50 rfl rfl dX8_within_23 ?_
  obtain ⟨o3, e3, h⟩ := ob h
  refine r_callSv G [.ref (bd p0), .ref (bd p1), .int 1, .ref (bd 64)] (qX8_joins hE p0 hp0 p1 hp1 (1 : Int32) 64 (by decide) _ e3) gX8_within_X8_joins rfl hdX8_joins ⟨Nat.le_of_ble_eq_true rfl, Nat.le_of_ble_eq_true rfl⟩ (Nat.le_of_ble_eq_true rfl) rfl ⟨Nat.le_of_ble_eq_true rfl, Nat.le_of_ble_eq_true rfl⟩ rfl rfl dX8_within_26 (fun s3 hp => ?_)
  have hp := hp.symm
  subst hp
  try dsimp only at h
  refine r_aload_n G 1 rfl rfl dX8_within_29 ?_
  refine r_aload_n G 2 rfl rfl dX8_within_30 ?_
  obtain ⟨o4, e4, h⟩ := ob h
  refine r_callSi G [.ref (bd p0), .ref (bd p1)] (qX8_lies hE p0 hp0 p1 hp1 _ e4) gX8_within_X8_lies rfl hdX8_lies ⟨Nat.le_of_ble_eq_true rfl, Nat.le_of_ble_eq_true rfl⟩ (Nat.le_of_ble_eq_true rfl) rfl ⟨Nat.le_of_ble_eq_true rfl, Nat.le_of_ble_eq_true rfl⟩ rfl rfl dX8_within_31 (fun r4 s4 hp hn4 => ?_)
  subst hp
  try dsimp only at h
  refine r_iload_n G 3 rfl rfl dX8_within_34 ?_
  refine r_icmp_ne G (tgt := 58) dX8_within_35 (by decide) (fun c => ?_) (fun c => ?_)
  · rw [if_neg c] at h
    refine r_iconst G (v := 1) (by decide) dX8_within_58 ?_
    exact hret _ _ _ _ _ _ dX8_within_59 (Option.some.inj h).symm rfl (Nat.le_of_ble_eq_true rfl) (Nat.le_of_ble_eq_true rfl)
  · rw [if_pos c] at h
    refine r_aload_n G 1 rfl rfl dX8_within_38 ?_
    refine r_aload_n G 2 rfl rfl dX8_within_39 ?_
    obtain ⟨o5, e5, h⟩ := ob h
    refine r_callSi G [.ref (bd p0), .ref (bd p1)] (qX8_lies hE p0 hp0 p1 hp1 _ e5) gX8_within_X8_lies rfl hdX8_lies ⟨Nat.le_of_ble_eq_true rfl, Nat.le_of_ble_eq_true rfl⟩ (Nat.le_of_ble_eq_true rfl) rfl ⟨Nat.le_of_ble_eq_true rfl, Nat.le_of_ble_eq_true rfl⟩ rfl rfl dX8_within_40 (fun r5 s5 hp hn5 => ?_)
    subst hp
    try dsimp only at h
    refine r_aload_n G 0 rfl rfl dX8_within_43 ?_
    refine r_get G (C := RX8) (T := TX8) (N := 19) kX8_within_X8 67 (mw_MO bd κ _) rfl 16 (by decide) mX8_within_f50 rfl rfl dX8_within_44 ?_
    refine r_aload_n G 1 rfl rfl dX8_within_47 ?_
    obtain ⟨o6, e6, h⟩ := ob h
    refine r_callSi G [.ref (bd 64), .ref (bd p0)] (qX8_areSame hE 64 (by decide) p0 hp0 _ e6) gX8_within_X8_areSame rfl hdX8_areSame ⟨Nat.le_of_ble_eq_true rfl, Nat.le_of_ble_eq_true rfl⟩ (Nat.le_of_ble_eq_true rfl) rfl ⟨Nat.le_of_ble_eq_true rfl, Nat.le_of_ble_eq_true rfl⟩ rfl rfl dX8_within_48 (fun r6 s6 hp hn6 => ?_)
    subst hp
    try dsimp only at h
    refine r_icmp_ne G (tgt := 58) dX8_within_51 (by decide) (fun c => ?_) (fun c => ?_)
    · rw [if_neg c] at h
      refine r_iconst G (v := 1) (by decide) dX8_within_58 ?_
      exact hret _ _ _ _ _ _ dX8_within_59 (Option.some.inj h).symm rfl (Nat.le_of_ble_eq_true rfl) (Nat.le_of_ble_eq_true rfl)
    · rw [if_pos c] at h
      refine r_iconst G (v := 0) (by decide) dX8_within_54 ?_
      refine r_goto G (tgt := 59) dX8_within_55 (by decide) ?_
      exact hret _ _ _ _ _ _ dX8_within_59 (Option.some.inj h).symm rfl (Nat.le_of_ble_eq_true rfl) (Nat.le_of_ble_eq_true rfl)
abbrev rmX8_sizeOfMeet : Room := { frames := 1, cells := 0, slots := 0, locals := 24 }
set_option maxRecDepth 20000 in
theorem kX8_sizeOfMeet_X8 : ∀ w ∈ u_ws RX8 TX8 19, w ∈ wsX8_sizeOfMeet := by decide +kernel
set_option maxRecDepth 20000 in
theorem mX8_sizeOfMeet_f50 : Cond.fieldLink RX8 50 "SetCouncilModel" "left" "[Z" ∈ wsX8_sizeOfMeet := by decide +kernel
set_option maxHeartbeats 4000000 in
set_option maxRecDepth 100000 in
theorem qX8_sizeOfMeet {E : evT} {l : Launch} {D : va_G} {bd : Nat → Nat} {κ : Nat → ClassId} (hE : EvOk E) (p0 : Nat) (hp0 : p0 < 67) (p1 : Nat) (hp1 : p1 < 67) (s : mS) {o : (Int32 × mS)} (h : fX8_sizeOfMeet p0 p1 s = some o) : Ci l yX8_sizeOfMeet wsX8_sizeOfMeet rmX8_sizeOfMeet (mW bd κ) E D (tyA κ) .int [.ref (bd 67), .ref (bd p0), .ref (bd p1)] s (fun r s2 => o = (r, s2)) := by
  rw [fX8_sizeOfMeet] at h
  refine s_i (cc := cX8_sizeOfMeet) (nL := 3) (own := RX8) hE (mW_WA bd κ) (plainFor_of_name (by decide)) rfl rfl (Nat.le_of_ble_eq_true rfl) (fun Γ G hret => ?_)
  refine r_aload_n G 1 rfl rfl dX8_sizeOfMeet_0 ?_
  refine r_aload_n G 2 rfl rfl dX8_sizeOfMeet_1 ?_
  refine r_iconst G (v := 1) (by decide) dX8_sizeOfMeet_2 ?_
  refine r_aload_n G 0 rfl rfl dX8_sizeOfMeet_3 ?_
  refine r_get G (C := RX8) (T := TX8) (N := 19) kX8_sizeOfMeet_X8 67 (mw_MO bd κ _) rfl 16 (by decide) mX8_sizeOfMeet_f50 rfl rfl dX8_sizeOfMeet_4 ?_
  obtain ⟨o1, e1, h⟩ := ob h
  refine r_callSv G [.ref (bd p0), .ref (bd p1), .int 1, .ref (bd 64)] (qX8_joins hE p0 hp0 p1 hp1 (1 : Int32) 64 (by decide) _ e1) gX8_sizeOfMeet_X8_joins rfl hdX8_joins ⟨Nat.le_of_ble_eq_true rfl, Nat.le_of_ble_eq_true rfl⟩ (Nat.le_of_ble_eq_true rfl) rfl ⟨Nat.le_of_ble_eq_true rfl, Nat.le_of_ble_eq_true rfl⟩ rfl rfl dX8_sizeOfMeet_7 (fun s1 hp => ?_)
  have hp := hp.symm
  subst hp
  try dsimp only at h
  refine r_aload_n G 0 rfl rfl dX8_sizeOfMeet_10 ?_
  refine r_get G (C := RX8) (T := TX8) (N := 19) kX8_sizeOfMeet_X8 67 (mw_MO bd κ _) rfl 16 (by decide) mX8_sizeOfMeet_f50 rfl rfl dX8_sizeOfMeet_11 ?_
  obtain ⟨o2, e2, h⟩ := ob h
  refine r_callSi G [.ref (bd 64)] (qX8_sizeOf hE 64 (by decide) _ e2) gX8_sizeOfMeet_X8_sizeOf rfl hdX8_sizeOf ⟨Nat.le_of_ble_eq_true rfl, Nat.le_of_ble_eq_true rfl⟩ (Nat.le_of_ble_eq_true rfl) rfl ⟨Nat.le_of_ble_eq_true rfl, Nat.le_of_ble_eq_true rfl⟩ rfl rfl dX8_sizeOfMeet_14 (fun r2 s2 hp hn2 => ?_)
  subst hp
  try dsimp only at h
  exact hret _ _ _ _ _ _ dX8_sizeOfMeet_17 (Option.some.inj h).symm rfl (Nat.le_of_ble_eq_true rfl) (Nat.le_of_ble_eq_true rfl)
abbrev rmX8_sizes : Room := { frames := 2, cells := 0, slots := 0, locals := 51 }
set_option maxRecDepth 20000 in
theorem kX8_sizes_X8 : ∀ w ∈ u_ws RX8 TX8 19, w ∈ wsX8_sizes := by decide +kernel
set_option maxRecDepth 20000 in
theorem mX8_sizes_f53 : Cond.fieldLink RX8 53 "SetCouncilModel" "right" "[Z" ∈ wsX8_sizes := by decide +kernel
theorem hdX8_sizeOfMeet : yX8_sizeOfMeet.cls = RX8 ∧ yX8_sizeOfMeet.cls ≠ "java/lang/invoke/MethodHandle" ∧ yX8_sizeOfMeet.cls ≠ "java/lang/invoke/VarHandle" ∧ (parseMethodDescriptor yX8_sizeOfMeet.desc).map (fun d => d.parameters.length) = some 2 := by decide +kernel
set_option maxRecDepth 20000 in
theorem mX8_sizes_f50 : Cond.fieldLink RX8 50 "SetCouncilModel" "left" "[Z" ∈ wsX8_sizes := by decide +kernel
set_option maxHeartbeats 4000000 in
set_option maxRecDepth 100000 in
theorem qX8_sizes {E : evT} {l : Launch} {D : va_G} {bd : Nat → Nat} {κ : Nat → ClassId} (hE : EvOk E) (p0 : Nat) (hp0 : p0 < 67) (p1 : Nat) (hp1 : p1 < 67) (p2 : Nat) (hp2 : p2 < 67) (s : mS) {o : (Int32 × mS)} (h : fX8_sizes p0 p1 p2 s = some o) : Ci l yX8_sizes wsX8_sizes rmX8_sizes (mW bd κ) E D (tyA κ) .int [.ref (bd 67), .ref (bd p0), .ref (bd p1), .ref (bd p2)] s (fun r s2 => o = (r, s2)) := by
  rw [fX8_sizes] at h
  refine s_i (cc := cX8_sizes) (nL := 5) (own := RX8) hE (mW_WA bd κ) (plainFor_of_name (by decide)) rfl rfl (Nat.le_of_ble_eq_true rfl) (fun Γ G hret => ?_)
  refine r_aload_n G 0 rfl rfl dX8_sizes_0 ?_
  refine r_aload_n G 1 rfl rfl dX8_sizes_1 ?_
  refine r_aload_n G 2 rfl rfl dX8_sizes_2 ?_
  refine r_aload_n G 3 rfl rfl dX8_sizes_3 ?_
  refine r_iconst G (v := 0) (by decide) dX8_sizes_4 ?_
  refine r_iconst G (v := 0) (by decide) dX8_sizes_5 ?_
  refine r_iconst G (v := 0) (by decide) dX8_sizes_6 ?_
  refine r_aload_n G 0 rfl rfl dX8_sizes_7 ?_
  refine r_get G (C := RX8) (T := TX8) (N := 19) kX8_sizes_X8 67 (mw_MO bd κ _) rfl 17 (by decide) mX8_sizes_f53 rfl rfl dX8_sizes_8 ?_
  obtain ⟨o1, e1, h⟩ := ob h
  refine r_callVv G [.ref (bd p0), .ref (bd p1), .ref (bd p2), .int 0, .int 0, .int 0, .ref (bd 65)] (qX8_three hE p0 hp0 p1 hp1 p2 hp2 (0 : Int32) (0 : Int32) (0 : Int32) 65 (by decide) _ e1) ⟨67, 8, _, _, rfl, (mw_MO bd κ _), rfl⟩ gX8_sizes_X8_three rfl hdX8_three ⟨Nat.le_of_ble_eq_true rfl, Nat.le_of_ble_eq_true rfl⟩ (Nat.le_of_ble_eq_true rfl) rfl ⟨Nat.le_of_ble_eq_true rfl, Nat.le_of_ble_eq_true rfl⟩ rfl rfl dX8_sizes_11 (fun s1 hp => ?_)
  have hp := hp.symm
  subst hp
  try dsimp only at h
  refine r_aload_n G 1 rfl rfl dX8_sizes_14 ?_
  obtain ⟨o2, e2, h⟩ := ob h
  refine r_callSi G [.ref (bd p0)] (qX8_sizeOf hE p0 hp0 _ e2) gX8_sizes_X8_sizeOf rfl hdX8_sizeOf ⟨Nat.le_of_ble_eq_true rfl, Nat.le_of_ble_eq_true rfl⟩ (Nat.le_of_ble_eq_true rfl) rfl ⟨Nat.le_of_ble_eq_true rfl, Nat.le_of_ble_eq_true rfl⟩ rfl rfl dX8_sizes_15 (fun r2 s2 hp hn2 => ?_)
  subst hp
  try dsimp only at h
  refine r_aload_n G 2 rfl rfl dX8_sizes_18 ?_
  obtain ⟨o3, e3, h⟩ := ob h
  refine r_callSi G [.ref (bd p1)] (qX8_sizeOf hE p1 hp1 _ e3) gX8_sizes_X8_sizeOf rfl hdX8_sizeOf ⟨Nat.le_of_ble_eq_true rfl, Nat.le_of_ble_eq_true rfl⟩ (Nat.le_of_ble_eq_true rfl) rfl ⟨Nat.le_of_ble_eq_true rfl, Nat.le_of_ble_eq_true rfl⟩ rfl rfl dX8_sizes_19 (fun r3 s3 hp hn3 => ?_)
  subst hp
  try dsimp only at h
  refine r_iadd G dX8_sizes_22 ?_
  refine r_aload_n G 3 rfl rfl dX8_sizes_23 ?_
  obtain ⟨o4, e4, h⟩ := ob h
  refine r_callSi G [.ref (bd p2)] (qX8_sizeOf hE p2 hp2 _ e4) gX8_sizes_X8_sizeOf rfl hdX8_sizeOf ⟨Nat.le_of_ble_eq_true rfl, Nat.le_of_ble_eq_true rfl⟩ (Nat.le_of_ble_eq_true rfl) rfl ⟨Nat.le_of_ble_eq_true rfl, Nat.le_of_ble_eq_true rfl⟩ rfl rfl dX8_sizes_24 (fun r4 s4 hp hn4 => ?_)
  subst hp
  try dsimp only at h
  refine r_iadd G dX8_sizes_27 ?_
  refine r_aload_n G 0 rfl rfl dX8_sizes_28 ?_
  refine r_aload_n G 1 rfl rfl dX8_sizes_29 ?_
  refine r_aload_n G 2 rfl rfl dX8_sizes_30 ?_
  obtain ⟨o5, e5, h⟩ := ob h
  refine r_callVi G [.ref (bd p0), .ref (bd p1)] (qX8_sizeOfMeet hE p0 hp0 p1 hp1 _ e5) ⟨67, 8, _, _, rfl, (mw_MO bd κ _), rfl⟩ gX8_sizes_X8_sizeOfMeet rfl hdX8_sizeOfMeet ⟨Nat.le_of_ble_eq_true rfl, Nat.le_of_ble_eq_true rfl⟩ (Nat.le_of_ble_eq_true rfl) rfl ⟨Nat.le_of_ble_eq_true rfl, Nat.le_of_ble_eq_true rfl⟩ rfl rfl dX8_sizes_31 (fun r5 s5 hp hn5 => ?_)
  subst hp
  try dsimp only at h
  refine r_isub G dX8_sizes_34 ?_
  refine r_aload_n G 0 rfl rfl dX8_sizes_35 ?_
  refine r_aload_n G 1 rfl rfl dX8_sizes_36 ?_
  refine r_aload_n G 3 rfl rfl dX8_sizes_37 ?_
  obtain ⟨o6, e6, h⟩ := ob h
  refine r_callVi G [.ref (bd p0), .ref (bd p2)] (qX8_sizeOfMeet hE p0 hp0 p2 hp2 _ e6) ⟨67, 8, _, _, rfl, (mw_MO bd κ _), rfl⟩ gX8_sizes_X8_sizeOfMeet rfl hdX8_sizeOfMeet ⟨Nat.le_of_ble_eq_true rfl, Nat.le_of_ble_eq_true rfl⟩ (Nat.le_of_ble_eq_true rfl) rfl ⟨Nat.le_of_ble_eq_true rfl, Nat.le_of_ble_eq_true rfl⟩ rfl rfl dX8_sizes_38 (fun r6 s6 hp hn6 => ?_)
  subst hp
  try dsimp only at h
  refine r_isub G dX8_sizes_41 ?_
  refine r_aload_n G 0 rfl rfl dX8_sizes_42 ?_
  refine r_aload_n G 2 rfl rfl dX8_sizes_43 ?_
  refine r_aload_n G 3 rfl rfl dX8_sizes_44 ?_
  obtain ⟨o7, e7, h⟩ := ob h
  refine r_callVi G [.ref (bd p1), .ref (bd p2)] (qX8_sizeOfMeet hE p1 hp1 p2 hp2 _ e7) ⟨67, 8, _, _, rfl, (mw_MO bd κ _), rfl⟩ gX8_sizes_X8_sizeOfMeet rfl hdX8_sizeOfMeet ⟨Nat.le_of_ble_eq_true rfl, Nat.le_of_ble_eq_true rfl⟩ (Nat.le_of_ble_eq_true rfl) rfl ⟨Nat.le_of_ble_eq_true rfl, Nat.le_of_ble_eq_true rfl⟩ rfl rfl dX8_sizes_45 (fun r7 s7 hp hn7 => ?_)
  subst hp
  try dsimp only at h
  refine r_isub G dX8_sizes_48 ?_
  refine r_istore G (lv' := [(0, .ref (bd 67)), (1, .ref (bd p0)), (2, .ref (bd p1)), (3, .ref (bd p2)), (4, .int (((((r2 + r3) + r4) - r5) - r6) - r7))]) [1, 2, 3, 4, 0] rfl (by decide) dX8_sizes_49 ?_
  refine r_aload_n G 1 rfl rfl dX8_sizes_51 ?_
  refine r_aload_n G 2 rfl rfl dX8_sizes_52 ?_
  refine r_iconst G (v := 1) (by decide) dX8_sizes_53 ?_
  refine r_aload_n G 0 rfl rfl dX8_sizes_54 ?_
  refine r_get G (C := RX8) (T := TX8) (N := 19) kX8_sizes_X8 67 (mw_MO bd κ _) rfl 16 (by decide) mX8_sizes_f50 rfl rfl dX8_sizes_55 ?_
  obtain ⟨o8, e8, h⟩ := ob h
  refine r_callSv G [.ref (bd p0), .ref (bd p1), .int 1, .ref (bd 64)] (qX8_joins hE p0 hp0 p1 hp1 (1 : Int32) 64 (by decide) _ e8) gX8_sizes_X8_joins rfl hdX8_joins ⟨Nat.le_of_ble_eq_true rfl, Nat.le_of_ble_eq_true rfl⟩ (Nat.le_of_ble_eq_true rfl) rfl ⟨Nat.le_of_ble_eq_true rfl, Nat.le_of_ble_eq_true rfl⟩ rfl rfl dX8_sizes_58 (fun s8 hp => ?_)
  have hp := hp.symm
  subst hp
  try dsimp only at h
  refine r_aload_n G 0 rfl rfl dX8_sizes_61 ?_
  refine r_get G (C := RX8) (T := TX8) (N := 19) kX8_sizes_X8 67 (mw_MO bd κ _) rfl 16 (by decide) mX8_sizes_f50 rfl rfl dX8_sizes_62 ?_
  refine r_aload_n G 3 rfl rfl dX8_sizes_65 ?_
  refine r_iconst G (v := 1) (by decide) dX8_sizes_66 ?_
  refine r_aload_n G 0 rfl rfl dX8_sizes_67 ?_
  refine r_get G (C := RX8) (T := TX8) (N := 19) kX8_sizes_X8 67 (mw_MO bd κ _) rfl 16 (by decide) mX8_sizes_f50 rfl rfl dX8_sizes_68 ?_
  obtain ⟨o9, e9, h⟩ := ob h
  refine r_callSv G [.ref (bd 64), .ref (bd p2), .int 1, .ref (bd 64)] (qX8_joins hE 64 (by decide) p2 hp2 (1 : Int32) 64 (by decide) _ e9) gX8_sizes_X8_joins rfl hdX8_joins ⟨Nat.le_of_ble_eq_true rfl, Nat.le_of_ble_eq_true rfl⟩ (Nat.le_of_ble_eq_true rfl) rfl ⟨Nat.le_of_ble_eq_true rfl, Nat.le_of_ble_eq_true rfl⟩ rfl rfl dX8_sizes_71 (fun s9 hp => ?_)
  have hp := hp.symm
  subst hp
  try dsimp only at h
  refine r_aload_n G 0 rfl rfl dX8_sizes_74 ?_
  refine r_get G (C := RX8) (T := TX8) (N := 19) kX8_sizes_X8 67 (mw_MO bd κ _) rfl 17 (by decide) mX8_sizes_f53 rfl rfl dX8_sizes_75 ?_
  obtain ⟨o10, e10, h⟩ := ob h
  refine r_callSi G [.ref (bd 65)] (qX8_sizeOf hE 65 (by decide) _ e10) gX8_sizes_X8_sizeOf rfl hdX8_sizeOf ⟨Nat.le_of_ble_eq_true rfl, Nat.le_of_ble_eq_true rfl⟩ (Nat.le_of_ble_eq_true rfl) rfl ⟨Nat.le_of_ble_eq_true rfl, Nat.le_of_ble_eq_true rfl⟩ rfl rfl dX8_sizes_78 (fun r10 s10 hp hn10 => ?_)
  subst hp
  try dsimp only at h
  refine r_iload G 4 rfl dX8_sizes_81 ?_
  refine r_aload_n G 0 rfl rfl dX8_sizes_83 ?_
  refine r_get G (C := RX8) (T := TX8) (N := 19) kX8_sizes_X8 67 (mw_MO bd κ _) rfl 16 (by decide) mX8_sizes_f50 rfl rfl dX8_sizes_84 ?_
  obtain ⟨o11, e11, h⟩ := ob h
  refine r_callSi G [.ref (bd 64)] (qX8_sizeOf hE 64 (by decide) _ e11) gX8_sizes_X8_sizeOf rfl hdX8_sizeOf ⟨Nat.le_of_ble_eq_true rfl, Nat.le_of_ble_eq_true rfl⟩ (Nat.le_of_ble_eq_true rfl) rfl ⟨Nat.le_of_ble_eq_true rfl, Nat.le_of_ble_eq_true rfl⟩ rfl rfl dX8_sizes_87 (fun r11 s11 hp hn11 => ?_)
  subst hp
  try dsimp only at h
  refine r_iadd G dX8_sizes_90 ?_
  refine r_icmp_ne G (tgt := 98) dX8_sizes_91 (by decide) (fun c => ?_) (fun c => ?_)
  · rw [if_neg c] at h
    refine r_iconst G (v := 1) (by decide) dX8_sizes_98 ?_
    exact hret _ _ _ _ _ _ dX8_sizes_99 (Option.some.inj h).symm rfl (Nat.le_of_ble_eq_true rfl) (Nat.le_of_ble_eq_true rfl)
  · rw [if_pos c] at h
    refine r_iconst G (v := 0) (by decide) dX8_sizes_94 ?_
    refine r_goto G (tgt := 99) dX8_sizes_95 (by decide) ?_
    exact hret _ _ _ _ _ _ dX8_sizes_99 (Option.some.inj h).symm rfl (Nat.le_of_ble_eq_true rfl) (Nat.le_of_ble_eq_true rfl)
abbrev rmX8_lawErrors : Room := { frames := 4, cells := 0, slots := 0, locals := 88 }
set_option maxRecDepth 20000 in
theorem kX8_lawErrors_X8 : ∀ w ∈ u_ws RX8 TX8 19, w ∈ wsX8_lawErrors := by decide +kernel
set_option maxRecDepth 20000 in
theorem mX8_lawErrors_f27 : Cond.fieldLink RX8 27 "SetCouncilModel" "sets" "[[Z" ∈ wsX8_lawErrors := by decide +kernel
theorem hdX8_ordersAndBrackets : yX8_ordersAndBrackets.cls = RX8 ∧ yX8_ordersAndBrackets.cls ≠ "java/lang/invoke/MethodHandle" ∧ yX8_ordersAndBrackets.cls ≠ "java/lang/invoke/VarHandle" ∧ (parseMethodDescriptor yX8_ordersAndBrackets.desc).map (fun d => d.parameters.length) = some 4 := by decide +kernel
theorem hdX8_parts : yX8_parts.cls = RX8 ∧ yX8_parts.cls ≠ "java/lang/invoke/MethodHandle" ∧ yX8_parts.cls ≠ "java/lang/invoke/VarHandle" ∧ (parseMethodDescriptor yX8_parts.desc).map (fun d => d.parameters.length) = some 5 := by decide +kernel
set_option maxRecDepth 20000 in
theorem mX8_lawErrors_f50 : Cond.fieldLink RX8 50 "SetCouncilModel" "left" "[Z" ∈ wsX8_lawErrors := by decide +kernel
set_option maxRecDepth 20000 in
theorem mX8_lawErrors_f53 : Cond.fieldLink RX8 53 "SetCouncilModel" "right" "[Z" ∈ wsX8_lawErrors := by decide +kernel
set_option maxRecDepth 20000 in
theorem mX8_lawErrors_f56 : Cond.fieldLink RX8 56 "SetCouncilModel" "spare" "[Z" ∈ wsX8_lawErrors := by decide +kernel
theorem hdX8_within : yX8_within.cls = RX8 ∧ yX8_within.cls ≠ "java/lang/invoke/MethodHandle" ∧ yX8_within.cls ≠ "java/lang/invoke/VarHandle" ∧ (parseMethodDescriptor yX8_within.desc).map (fun d => d.parameters.length) = some 2 := by decide +kernel
theorem hdX8_sizes : yX8_sizes.cls = RX8 ∧ yX8_sizes.cls ≠ "java/lang/invoke/MethodHandle" ∧ yX8_sizes.cls ≠ "java/lang/invoke/VarHandle" ∧ (parseMethodDescriptor yX8_sizes.desc).map (fun d => d.parameters.length) = some 3 := by decide +kernel
set_option maxHeartbeats 4000000 in
set_option maxRecDepth 100000 in
theorem qX8_lawErrors {E : evT} {l : Launch} {D : va_G} {bd : Nat → Nat} {κ : Nat → ClassId} (hE : EvOk E) (p0 : Int32) (p1 : Int32) (p2 : Int32) (s : mS) {o : (Int32 × mS)} (h : fX8_lawErrors p0 p1 p2 s = some o) : Ci l yX8_lawErrors wsX8_lawErrors rmX8_lawErrors (mW bd κ) E D (tyA κ) .int [.ref (bd 67), .int p0, .int p1, .int p2] s (fun r s2 => o = (r, s2)) := by
  rw [fX8_lawErrors] at h
  refine s_i (cc := cX8_lawErrors) (nL := 8) (own := RX8) hE (mW_WA bd κ) (plainFor_of_name (by decide)) rfl rfl (Nat.le_of_ble_eq_true rfl) (fun Γ G hret => ?_)
  refine r_aload_n G 0 rfl rfl dX8_lawErrors_0 ?_
  refine r_iload_n G 1 rfl rfl dX8_lawErrors_1 ?_
  refine r_callSi G [.int p0] (qX8_isSet hE p0 _) gX8_lawErrors_X8_isSet rfl hdX8_isSet ⟨Nat.le_of_ble_eq_true rfl, Nat.le_of_ble_eq_true rfl⟩ (Nat.le_of_ble_eq_true rfl) rfl ⟨Nat.le_of_ble_eq_true rfl, Nat.le_of_ble_eq_true rfl⟩ rfl rfl dX8_lawErrors_2 (fun r1 s1 hp hn1 => ?_)
  obtain ⟨rfl, hs⟩ := hp
  have hs := hs.symm
  subst hs
  refine r_if_eq G (tgt := 26) dX8_lawErrors_5 (by decide) (fun c => ?_) (fun c => ?_)
  · rw [if_pos c] at h
    refine r_iconst G (v := 0) (by decide) dX8_lawErrors_26 ?_
    refine r_iconst G (v := 1) (by decide) dX8_lawErrors_27 ?_
    obtain ⟨o2, e2, h⟩ := ob h
    refine r_callVi G [.int 0, .int 1] (qX8_passes hE (0 : Int32) (1 : Int32) _ e2) ⟨67, 8, _, _, rfl, (mw_MO bd κ _), rfl⟩ gX8_lawErrors_X8_passes rfl hdX8_passes ⟨Nat.le_of_ble_eq_true rfl, Nat.le_of_ble_eq_true rfl⟩ (Nat.le_of_ble_eq_true rfl) rfl ⟨Nat.le_of_ble_eq_true rfl, Nat.le_of_ble_eq_true rfl⟩ rfl rfl dX8_lawErrors_28 (fun r2 s2 hp hn2 => ?_)
    subst hp
    try dsimp only at h
    refine r_if_ne G (tgt := 36) dX8_lawErrors_31 (by decide) (fun c => ?_) (fun c => ?_)
    · rw [if_neg c] at h
      refine r_aload_n G 0 rfl rfl dX8_lawErrors_36 ?_
      refine r_get G (C := RX8) (T := TX8) (N := 19) kX8_lawErrors_X8 67 (mw_MO bd κ _) rfl 1 (by decide) mX8_lawErrors_f27 rfl rfl dX8_lawErrors_37 ?_
      refine r_iload_n G 1 rfl rfl dX8_lawErrors_40 ?_
      obtain ⟨g3, h⟩ := og h
      refine r_aldA G 68 5 (mw_SETSG bd κ _) rfl (vin_in g3) rfl dX8_lawErrors_41 ?_
      refine r_astore G (lv' := [(0, .ref (bd 67)), (2, .int p1), (3, .int p2), (4, .ref (bd p0.toNatClampNeg))]) [1, 3, 4, 0] rfl (by decide) dX8_lawErrors_42 ?_
      refine r_aload_n G 0 rfl rfl dX8_lawErrors_44 ?_
      refine r_get G (C := RX8) (T := TX8) (N := 19) kX8_lawErrors_X8 67 (mw_MO bd κ _) rfl 1 (by decide) mX8_lawErrors_f27 rfl rfl dX8_lawErrors_45 ?_
      refine r_iload_n G 1 rfl rfl dX8_lawErrors_48 ?_
      obtain ⟨g4, h⟩ := og h
      refine r_aldA G 68 5 (mw_SETSG bd κ _) rfl (vin_in g4) rfl dX8_lawErrors_49 ?_
      refine r_astore G (lv' := [(0, .ref (bd 67)), (3, .int p2), (4, .ref (bd p0.toNatClampNeg)), (5, .ref (bd p1.toNatClampNeg))]) [1, 3, 4, 0] rfl (by decide) dX8_lawErrors_50 ?_
      refine r_aload_n G 0 rfl rfl dX8_lawErrors_52 ?_
      refine r_get G (C := RX8) (T := TX8) (N := 19) kX8_lawErrors_X8 67 (mw_MO bd κ _) rfl 1 (by decide) mX8_lawErrors_f27 rfl rfl dX8_lawErrors_53 ?_
      refine r_iload_n G 1 rfl rfl dX8_lawErrors_56 ?_
      obtain ⟨g5, h⟩ := og h
      refine r_aldA G 68 5 (mw_SETSG bd κ _) rfl (vin_in g5) rfl dX8_lawErrors_57 ?_
      refine r_astore G (lv' := [(0, .ref (bd 67)), (4, .ref (bd p0.toNatClampNeg)), (5, .ref (bd p1.toNatClampNeg)), (6, .ref (bd p2.toNatClampNeg))]) [1, 3, 4, 0] rfl (by decide) dX8_lawErrors_58 ?_
      refine r_aload_n G 0 rfl rfl dX8_lawErrors_60 ?_
      refine r_aload G 1 rfl dX8_lawErrors_61 ?_
      refine r_aload G 2 rfl dX8_lawErrors_63 ?_
      refine r_aload G 3 rfl dX8_lawErrors_65 ?_
      refine r_iconst G (v := 0) (by decide) dX8_lawErrors_67 ?_
      obtain ⟨o6, e6, h⟩ := ob h
      refine r_callVi G [.ref (bd p0.toNatClampNeg), .ref (bd p1.toNatClampNeg), .ref (bd p2.toNatClampNeg), .int 0] (qX8_ordersAndBrackets hE p0.toNatClampNeg (by have := vin_lt g3; omega) p1.toNatClampNeg (by have := vin_lt g4; omega) p2.toNatClampNeg (by have := vin_lt g5; omega) (0 : Int32) _ e6) ⟨67, 8, _, _, rfl, (mw_MO bd κ _), rfl⟩ gX8_lawErrors_X8_ordersAndBrackets rfl hdX8_ordersAndBrackets ⟨Nat.le_of_ble_eq_true rfl, Nat.le_of_ble_eq_true rfl⟩ (Nat.le_of_ble_eq_true rfl) rfl ⟨Nat.le_of_ble_eq_true rfl, Nat.le_of_ble_eq_true rfl⟩ rfl rfl dX8_lawErrors_68 (fun r6 s6 hp hn6 => ?_)
      subst hp
      try dsimp only at h
      refine r_aload_n G 0 rfl rfl dX8_lawErrors_71 ?_
      refine r_aload G 1 rfl dX8_lawErrors_72 ?_
      refine r_aload G 2 rfl dX8_lawErrors_74 ?_
      refine r_aload G 3 rfl dX8_lawErrors_76 ?_
      refine r_iconst G (v := 1) (by decide) dX8_lawErrors_78 ?_
      obtain ⟨o7, e7, h⟩ := ob h
      refine r_callVi G [.ref (bd p0.toNatClampNeg), .ref (bd p1.toNatClampNeg), .ref (bd p2.toNatClampNeg), .int 1] (qX8_ordersAndBrackets hE p0.toNatClampNeg (by have := vin_lt g3; omega) p1.toNatClampNeg (by have := vin_lt g4; omega) p2.toNatClampNeg (by have := vin_lt g5; omega) (1 : Int32) _ e7) ⟨67, 8, _, _, rfl, (mw_MO bd κ _), rfl⟩ gX8_lawErrors_X8_ordersAndBrackets rfl hdX8_ordersAndBrackets ⟨Nat.le_of_ble_eq_true rfl, Nat.le_of_ble_eq_true rfl⟩ (Nat.le_of_ble_eq_true rfl) rfl ⟨Nat.le_of_ble_eq_true rfl, Nat.le_of_ble_eq_true rfl⟩ rfl rfl dX8_lawErrors_79 (fun r7 s7 hp hn7 => ?_)
      subst hp
      try dsimp only at h
      refine r_iadd G dX8_lawErrors_82 ?_
      refine r_istore G (lv' := [(0, .ref (bd 67)), (4, .ref (bd p0.toNatClampNeg)), (5, .ref (bd p1.toNatClampNeg)), (6, .ref (bd p2.toNatClampNeg)), (7, .int (r6 + r7))]) [1, 2, 3, 4, 0] rfl (by decide) dX8_lawErrors_83 ?_
      refine r_iload G 4 rfl dX8_lawErrors_85 ?_
      refine r_aload_n G 0 rfl rfl dX8_lawErrors_87 ?_
      refine r_aload G 1 rfl dX8_lawErrors_88 ?_
      refine r_aload G 2 rfl dX8_lawErrors_90 ?_
      refine r_aload G 3 rfl dX8_lawErrors_92 ?_
      refine r_iconst G (v := 1) (by decide) dX8_lawErrors_94 ?_
      refine r_iconst G (v := 0) (by decide) dX8_lawErrors_95 ?_
      obtain ⟨o8, e8, h⟩ := ob h
      refine r_callVi G [.ref (bd p0.toNatClampNeg), .ref (bd p1.toNatClampNeg), .ref (bd p2.toNatClampNeg), .int 1, .int 0] (qX8_parts hE p0.toNatClampNeg (by have := vin_lt g3; omega) p1.toNatClampNeg (by have := vin_lt g4; omega) p2.toNatClampNeg (by have := vin_lt g5; omega) (1 : Int32) (0 : Int32) _ e8) ⟨67, 8, _, _, rfl, (mw_MO bd κ _), rfl⟩ gX8_lawErrors_X8_parts rfl hdX8_parts ⟨Nat.le_of_ble_eq_true rfl, Nat.le_of_ble_eq_true rfl⟩ (Nat.le_of_ble_eq_true rfl) rfl ⟨Nat.le_of_ble_eq_true rfl, Nat.le_of_ble_eq_true rfl⟩ rfl rfl dX8_lawErrors_96 (fun r8 s8 hp hn8 => ?_)
      subst hp
      try dsimp only at h
      refine r_aload_n G 0 rfl rfl dX8_lawErrors_99 ?_
      refine r_aload G 1 rfl dX8_lawErrors_100 ?_
      refine r_aload G 2 rfl dX8_lawErrors_102 ?_
      refine r_aload G 3 rfl dX8_lawErrors_104 ?_
      refine r_iconst G (v := 0) (by decide) dX8_lawErrors_106 ?_
      refine r_iconst G (v := 1) (by decide) dX8_lawErrors_107 ?_
      obtain ⟨o9, e9, h⟩ := ob h
      refine r_callVi G [.ref (bd p0.toNatClampNeg), .ref (bd p1.toNatClampNeg), .ref (bd p2.toNatClampNeg), .int 0, .int 1] (qX8_parts hE p0.toNatClampNeg (by have := vin_lt g3; omega) p1.toNatClampNeg (by have := vin_lt g4; omega) p2.toNatClampNeg (by have := vin_lt g5; omega) (0 : Int32) (1 : Int32) _ e9) ⟨67, 8, _, _, rfl, (mw_MO bd κ _), rfl⟩ gX8_lawErrors_X8_parts rfl hdX8_parts ⟨Nat.le_of_ble_eq_true rfl, Nat.le_of_ble_eq_true rfl⟩ (Nat.le_of_ble_eq_true rfl) rfl ⟨Nat.le_of_ble_eq_true rfl, Nat.le_of_ble_eq_true rfl⟩ rfl rfl dX8_lawErrors_108 (fun r9 s9 hp hn9 => ?_)
      subst hp
      try dsimp only at h
      refine r_iadd G dX8_lawErrors_111 ?_
      refine r_iadd G dX8_lawErrors_112 ?_
      refine r_istore G (lv' := [(0, .ref (bd 67)), (4, .ref (bd p0.toNatClampNeg)), (5, .ref (bd p1.toNatClampNeg)), (6, .ref (bd p2.toNatClampNeg)), (7, .int ((r6 + r7) + (r8 + r9)))]) [1, 2, 3, 4, 0] rfl (by decide) dX8_lawErrors_113 ?_
      refine r_aload_n G 0 rfl rfl dX8_lawErrors_115 ?_
      refine r_aload G 1 rfl dX8_lawErrors_116 ?_
      refine r_aload G 2 rfl dX8_lawErrors_118 ?_
      refine r_aload G 3 rfl dX8_lawErrors_120 ?_
      refine r_iconst G (v := 0) (by decide) dX8_lawErrors_122 ?_
      refine r_iconst G (v := 2) (by decide) dX8_lawErrors_123 ?_
      refine r_iconst G (v := 1) (by decide) dX8_lawErrors_124 ?_
      refine r_aload_n G 0 rfl rfl dX8_lawErrors_125 ?_
      refine r_get G (C := RX8) (T := TX8) (N := 19) kX8_lawErrors_X8 67 (mw_MO bd κ _) rfl 16 (by decide) mX8_lawErrors_f50 rfl rfl dX8_lawErrors_126 ?_
      obtain ⟨o10, e10, h⟩ := ob h
      refine r_callVv G [.ref (bd p0.toNatClampNeg), .ref (bd p1.toNatClampNeg), .ref (bd p2.toNatClampNeg), .int 0, .int 2, .int 1, .ref (bd 64)] (qX8_three hE p0.toNatClampNeg (by have := vin_lt g3; omega) p1.toNatClampNeg (by have := vin_lt g4; omega) p2.toNatClampNeg (by have := vin_lt g5; omega) (0 : Int32) (2 : Int32) (1 : Int32) 64 (by decide) _ e10) ⟨67, 8, _, _, rfl, (mw_MO bd κ _), rfl⟩ gX8_lawErrors_X8_three rfl hdX8_three ⟨Nat.le_of_ble_eq_true rfl, Nat.le_of_ble_eq_true rfl⟩ (Nat.le_of_ble_eq_true rfl) rfl ⟨Nat.le_of_ble_eq_true rfl, Nat.le_of_ble_eq_true rfl⟩ rfl rfl dX8_lawErrors_129 (fun s10 hp => ?_)
      have hp := hp.symm
      subst hp
      try dsimp only at h
      refine r_aload G 1 rfl dX8_lawErrors_132 ?_
      refine r_aload G 2 rfl dX8_lawErrors_134 ?_
      refine r_iconst G (v := 2) (by decide) dX8_lawErrors_136 ?_
      refine r_aload_n G 0 rfl rfl dX8_lawErrors_137 ?_
      refine r_get G (C := RX8) (T := TX8) (N := 19) kX8_lawErrors_X8 67 (mw_MO bd κ _) rfl 17 (by decide) mX8_lawErrors_f53 rfl rfl dX8_lawErrors_138 ?_
      obtain ⟨o11, e11, h⟩ := ob h
      refine r_callSv G [.ref (bd p0.toNatClampNeg), .ref (bd p1.toNatClampNeg), .int 2, .ref (bd 65)] (qX8_joins hE p0.toNatClampNeg (by have := vin_lt g3; omega) p1.toNatClampNeg (by have := vin_lt g4; omega) (2 : Int32) 65 (by decide) _ e11) gX8_lawErrors_X8_joins rfl hdX8_joins ⟨Nat.le_of_ble_eq_true rfl, Nat.le_of_ble_eq_true rfl⟩ (Nat.le_of_ble_eq_true rfl) rfl ⟨Nat.le_of_ble_eq_true rfl, Nat.le_of_ble_eq_true rfl⟩ rfl rfl dX8_lawErrors_141 (fun s11 hp => ?_)
      have hp := hp.symm
      subst hp
      try dsimp only at h
      refine r_aload G 1 rfl dX8_lawErrors_144 ?_
      refine r_aload G 3 rfl dX8_lawErrors_146 ?_
      refine r_iconst G (v := 2) (by decide) dX8_lawErrors_148 ?_
      refine r_aload_n G 0 rfl rfl dX8_lawErrors_149 ?_
      refine r_get G (C := RX8) (T := TX8) (N := 19) kX8_lawErrors_X8 67 (mw_MO bd κ _) rfl 18 (by decide) mX8_lawErrors_f56 rfl rfl dX8_lawErrors_150 ?_
      obtain ⟨o12, e12, h⟩ := ob h
      refine r_callSv G [.ref (bd p0.toNatClampNeg), .ref (bd p2.toNatClampNeg), .int 2, .ref (bd 66)] (qX8_joins hE p0.toNatClampNeg (by have := vin_lt g3; omega) p2.toNatClampNeg (by have := vin_lt g5; omega) (2 : Int32) 66 (by decide) _ e12) gX8_lawErrors_X8_joins rfl hdX8_joins ⟨Nat.le_of_ble_eq_true rfl, Nat.le_of_ble_eq_true rfl⟩ (Nat.le_of_ble_eq_true rfl) rfl ⟨Nat.le_of_ble_eq_true rfl, Nat.le_of_ble_eq_true rfl⟩ rfl rfl dX8_lawErrors_153 (fun s12 hp => ?_)
      have hp := hp.symm
      subst hp
      try dsimp only at h
      refine r_aload_n G 0 rfl rfl dX8_lawErrors_156 ?_
      refine r_get G (C := RX8) (T := TX8) (N := 19) kX8_lawErrors_X8 67 (mw_MO bd κ _) rfl 17 (by decide) mX8_lawErrors_f53 rfl rfl dX8_lawErrors_157 ?_
      refine r_aload_n G 0 rfl rfl dX8_lawErrors_160 ?_
      refine r_get G (C := RX8) (T := TX8) (N := 19) kX8_lawErrors_X8 67 (mw_MO bd κ _) rfl 18 (by decide) mX8_lawErrors_f56 rfl rfl dX8_lawErrors_161 ?_
      refine r_iconst G (v := 1) (by decide) dX8_lawErrors_164 ?_
      refine r_aload_n G 0 rfl rfl dX8_lawErrors_165 ?_
      refine r_get G (C := RX8) (T := TX8) (N := 19) kX8_lawErrors_X8 67 (mw_MO bd κ _) rfl 17 (by decide) mX8_lawErrors_f53 rfl rfl dX8_lawErrors_166 ?_
      obtain ⟨o13, e13, h⟩ := ob h
      refine r_callSv G [.ref (bd 65), .ref (bd 66), .int 1, .ref (bd 65)] (qX8_joins hE 65 (by decide) 66 (by decide) (1 : Int32) 65 (by decide) _ e13) gX8_lawErrors_X8_joins rfl hdX8_joins ⟨Nat.le_of_ble_eq_true rfl, Nat.le_of_ble_eq_true rfl⟩ (Nat.le_of_ble_eq_true rfl) rfl ⟨Nat.le_of_ble_eq_true rfl, Nat.le_of_ble_eq_true rfl⟩ rfl rfl dX8_lawErrors_169 (fun s13 hp => ?_)
      have hp := hp.symm
      subst hp
      try dsimp only at h
      refine r_iload G 4 rfl dX8_lawErrors_172 ?_
      refine r_aload_n G 0 rfl rfl dX8_lawErrors_174 ?_
      obtain ⟨o14, e14, h⟩ := ob h
      refine r_callVi G [] (qX8_others hE _ e14) ⟨67, 8, _, _, rfl, (mw_MO bd κ _), rfl⟩ gX8_lawErrors_X8_others rfl hdX8_others ⟨Nat.le_of_ble_eq_true rfl, Nat.le_of_ble_eq_true rfl⟩ (Nat.le_of_ble_eq_true rfl) rfl ⟨Nat.le_of_ble_eq_true rfl, Nat.le_of_ble_eq_true rfl⟩ rfl rfl dX8_lawErrors_175 (fun r14 s14 hp hn14 => ?_)
      subst hp
      try dsimp only at h
      refine r_iadd G dX8_lawErrors_178 ?_
      refine r_aload_n G 0 rfl rfl dX8_lawErrors_179 ?_
      refine r_aload G 1 rfl dX8_lawErrors_180 ?_
      refine r_aload G 2 rfl dX8_lawErrors_182 ?_
      obtain ⟨o15, e15, h⟩ := ob h
      refine r_callVi G [.ref (bd p0.toNatClampNeg), .ref (bd p1.toNatClampNeg)] (qX8_within hE p0.toNatClampNeg (by have := vin_lt g3; omega) p1.toNatClampNeg (by have := vin_lt g4; omega) _ e15) ⟨67, 8, _, _, rfl, (mw_MO bd κ _), rfl⟩ gX8_lawErrors_X8_within rfl hdX8_within ⟨Nat.le_of_ble_eq_true rfl, Nat.le_of_ble_eq_true rfl⟩ (Nat.le_of_ble_eq_true rfl) rfl ⟨Nat.le_of_ble_eq_true rfl, Nat.le_of_ble_eq_true rfl⟩ rfl rfl dX8_lawErrors_184 (fun r15 s15 hp hn15 => ?_)
      subst hp
      try dsimp only at h
      refine r_iadd G dX8_lawErrors_187 ?_
      refine r_aload_n G 0 rfl rfl dX8_lawErrors_188 ?_
      refine r_aload G 1 rfl dX8_lawErrors_189 ?_
      refine r_aload G 2 rfl dX8_lawErrors_191 ?_
      refine r_aload G 3 rfl dX8_lawErrors_193 ?_
      obtain ⟨o16, e16, h⟩ := ob h
      refine r_callVi G [.ref (bd p0.toNatClampNeg), .ref (bd p1.toNatClampNeg), .ref (bd p2.toNatClampNeg)] (qX8_sizes hE p0.toNatClampNeg (by have := vin_lt g3; omega) p1.toNatClampNeg (by have := vin_lt g4; omega) p2.toNatClampNeg (by have := vin_lt g5; omega) _ e16) ⟨67, 8, _, _, rfl, (mw_MO bd κ _), rfl⟩ gX8_lawErrors_X8_sizes rfl hdX8_sizes ⟨Nat.le_of_ble_eq_true rfl, Nat.le_of_ble_eq_true rfl⟩ (Nat.le_of_ble_eq_true rfl) rfl ⟨Nat.le_of_ble_eq_true rfl, Nat.le_of_ble_eq_true rfl⟩ rfl rfl dX8_lawErrors_195 (fun r16 s16 hp hn16 => ?_)
      subst hp
      try dsimp only at h
      refine r_iadd G dX8_lawErrors_198 ?_
      exact hret _ _ _ _ _ _ dX8_lawErrors_199 (Option.some.inj h).symm rfl (Nat.le_of_ble_eq_true rfl) (Nat.le_of_ble_eq_true rfl)
    · rw [if_pos c] at h
      refine r_iconst G (v := 0) (by decide) dX8_lawErrors_34 ?_
      exact hret _ _ _ _ _ _ dX8_lawErrors_35 (Option.some.inj h).symm rfl (Nat.le_of_ble_eq_true rfl) (Nat.le_of_ble_eq_true rfl)
  · rw [if_neg c] at h
    refine r_iload_n G 2 rfl rfl dX8_lawErrors_8 ?_
    refine r_callSi G [.int p1] (qX8_isSet hE p1 _) gX8_lawErrors_X8_isSet rfl hdX8_isSet ⟨Nat.le_of_ble_eq_true rfl, Nat.le_of_ble_eq_true rfl⟩ (Nat.le_of_ble_eq_true rfl) rfl ⟨Nat.le_of_ble_eq_true rfl, Nat.le_of_ble_eq_true rfl⟩ rfl rfl dX8_lawErrors_9 (fun r17 s17 hp hn17 => ?_)
    obtain ⟨rfl, hs⟩ := hp
    have hs := hs.symm
    subst hs
    refine r_if_eq G (tgt := 26) dX8_lawErrors_12 (by decide) (fun c => ?_) (fun c => ?_)
    · rw [if_pos c] at h
      refine r_iconst G (v := 0) (by decide) dX8_lawErrors_26 ?_
      refine r_iconst G (v := 1) (by decide) dX8_lawErrors_27 ?_
      obtain ⟨o18, e18, h⟩ := ob h
      refine r_callVi G [.int 0, .int 1] (qX8_passes hE (0 : Int32) (1 : Int32) _ e18) ⟨67, 8, _, _, rfl, (mw_MO bd κ _), rfl⟩ gX8_lawErrors_X8_passes rfl hdX8_passes ⟨Nat.le_of_ble_eq_true rfl, Nat.le_of_ble_eq_true rfl⟩ (Nat.le_of_ble_eq_true rfl) rfl ⟨Nat.le_of_ble_eq_true rfl, Nat.le_of_ble_eq_true rfl⟩ rfl rfl dX8_lawErrors_28 (fun r18 s18 hp hn18 => ?_)
      subst hp
      try dsimp only at h
      refine r_if_ne G (tgt := 36) dX8_lawErrors_31 (by decide) (fun c => ?_) (fun c => ?_)
      · rw [if_neg c] at h
        refine r_aload_n G 0 rfl rfl dX8_lawErrors_36 ?_
        refine r_get G (C := RX8) (T := TX8) (N := 19) kX8_lawErrors_X8 67 (mw_MO bd κ _) rfl 1 (by decide) mX8_lawErrors_f27 rfl rfl dX8_lawErrors_37 ?_
        refine r_iload_n G 1 rfl rfl dX8_lawErrors_40 ?_
        obtain ⟨g19, h⟩ := og h
        refine r_aldA G 68 5 (mw_SETSG bd κ _) rfl (vin_in g19) rfl dX8_lawErrors_41 ?_
        refine r_astore G (lv' := [(0, .ref (bd 67)), (2, .int p1), (3, .int p2), (4, .ref (bd p0.toNatClampNeg))]) [1, 3, 4, 0] rfl (by decide) dX8_lawErrors_42 ?_
        refine r_aload_n G 0 rfl rfl dX8_lawErrors_44 ?_
        refine r_get G (C := RX8) (T := TX8) (N := 19) kX8_lawErrors_X8 67 (mw_MO bd κ _) rfl 1 (by decide) mX8_lawErrors_f27 rfl rfl dX8_lawErrors_45 ?_
        refine r_iload_n G 1 rfl rfl dX8_lawErrors_48 ?_
        obtain ⟨g20, h⟩ := og h
        refine r_aldA G 68 5 (mw_SETSG bd κ _) rfl (vin_in g20) rfl dX8_lawErrors_49 ?_
        refine r_astore G (lv' := [(0, .ref (bd 67)), (3, .int p2), (4, .ref (bd p0.toNatClampNeg)), (5, .ref (bd p1.toNatClampNeg))]) [1, 3, 4, 0] rfl (by decide) dX8_lawErrors_50 ?_
        refine r_aload_n G 0 rfl rfl dX8_lawErrors_52 ?_
        refine r_get G (C := RX8) (T := TX8) (N := 19) kX8_lawErrors_X8 67 (mw_MO bd κ _) rfl 1 (by decide) mX8_lawErrors_f27 rfl rfl dX8_lawErrors_53 ?_
        refine r_iload_n G 1 rfl rfl dX8_lawErrors_56 ?_
        obtain ⟨g21, h⟩ := og h
        refine r_aldA G 68 5 (mw_SETSG bd κ _) rfl (vin_in g21) rfl dX8_lawErrors_57 ?_
        refine r_astore G (lv' := [(0, .ref (bd 67)), (4, .ref (bd p0.toNatClampNeg)), (5, .ref (bd p1.toNatClampNeg)), (6, .ref (bd p2.toNatClampNeg))]) [1, 3, 4, 0] rfl (by decide) dX8_lawErrors_58 ?_
        refine r_aload_n G 0 rfl rfl dX8_lawErrors_60 ?_
        refine r_aload G 1 rfl dX8_lawErrors_61 ?_
        refine r_aload G 2 rfl dX8_lawErrors_63 ?_
        refine r_aload G 3 rfl dX8_lawErrors_65 ?_
        refine r_iconst G (v := 0) (by decide) dX8_lawErrors_67 ?_
        obtain ⟨o22, e22, h⟩ := ob h
        refine r_callVi G [.ref (bd p0.toNatClampNeg), .ref (bd p1.toNatClampNeg), .ref (bd p2.toNatClampNeg), .int 0] (qX8_ordersAndBrackets hE p0.toNatClampNeg (by have := vin_lt g19; omega) p1.toNatClampNeg (by have := vin_lt g20; omega) p2.toNatClampNeg (by have := vin_lt g21; omega) (0 : Int32) _ e22) ⟨67, 8, _, _, rfl, (mw_MO bd κ _), rfl⟩ gX8_lawErrors_X8_ordersAndBrackets rfl hdX8_ordersAndBrackets ⟨Nat.le_of_ble_eq_true rfl, Nat.le_of_ble_eq_true rfl⟩ (Nat.le_of_ble_eq_true rfl) rfl ⟨Nat.le_of_ble_eq_true rfl, Nat.le_of_ble_eq_true rfl⟩ rfl rfl dX8_lawErrors_68 (fun r22 s22 hp hn22 => ?_)
        subst hp
        try dsimp only at h
        refine r_aload_n G 0 rfl rfl dX8_lawErrors_71 ?_
        refine r_aload G 1 rfl dX8_lawErrors_72 ?_
        refine r_aload G 2 rfl dX8_lawErrors_74 ?_
        refine r_aload G 3 rfl dX8_lawErrors_76 ?_
        refine r_iconst G (v := 1) (by decide) dX8_lawErrors_78 ?_
        obtain ⟨o23, e23, h⟩ := ob h
        refine r_callVi G [.ref (bd p0.toNatClampNeg), .ref (bd p1.toNatClampNeg), .ref (bd p2.toNatClampNeg), .int 1] (qX8_ordersAndBrackets hE p0.toNatClampNeg (by have := vin_lt g19; omega) p1.toNatClampNeg (by have := vin_lt g20; omega) p2.toNatClampNeg (by have := vin_lt g21; omega) (1 : Int32) _ e23) ⟨67, 8, _, _, rfl, (mw_MO bd κ _), rfl⟩ gX8_lawErrors_X8_ordersAndBrackets rfl hdX8_ordersAndBrackets ⟨Nat.le_of_ble_eq_true rfl, Nat.le_of_ble_eq_true rfl⟩ (Nat.le_of_ble_eq_true rfl) rfl ⟨Nat.le_of_ble_eq_true rfl, Nat.le_of_ble_eq_true rfl⟩ rfl rfl dX8_lawErrors_79 (fun r23 s23 hp hn23 => ?_)
        subst hp
        try dsimp only at h
        refine r_iadd G dX8_lawErrors_82 ?_
        refine r_istore G (lv' := [(0, .ref (bd 67)), (4, .ref (bd p0.toNatClampNeg)), (5, .ref (bd p1.toNatClampNeg)), (6, .ref (bd p2.toNatClampNeg)), (7, .int (r22 + r23))]) [1, 2, 3, 4, 0] rfl (by decide) dX8_lawErrors_83 ?_
        refine r_iload G 4 rfl dX8_lawErrors_85 ?_
        refine r_aload_n G 0 rfl rfl dX8_lawErrors_87 ?_
        refine r_aload G 1 rfl dX8_lawErrors_88 ?_
        refine r_aload G 2 rfl dX8_lawErrors_90 ?_
        refine r_aload G 3 rfl dX8_lawErrors_92 ?_
        refine r_iconst G (v := 1) (by decide) dX8_lawErrors_94 ?_
        refine r_iconst G (v := 0) (by decide) dX8_lawErrors_95 ?_
        obtain ⟨o24, e24, h⟩ := ob h
        refine r_callVi G [.ref (bd p0.toNatClampNeg), .ref (bd p1.toNatClampNeg), .ref (bd p2.toNatClampNeg), .int 1, .int 0] (qX8_parts hE p0.toNatClampNeg (by have := vin_lt g19; omega) p1.toNatClampNeg (by have := vin_lt g20; omega) p2.toNatClampNeg (by have := vin_lt g21; omega) (1 : Int32) (0 : Int32) _ e24) ⟨67, 8, _, _, rfl, (mw_MO bd κ _), rfl⟩ gX8_lawErrors_X8_parts rfl hdX8_parts ⟨Nat.le_of_ble_eq_true rfl, Nat.le_of_ble_eq_true rfl⟩ (Nat.le_of_ble_eq_true rfl) rfl ⟨Nat.le_of_ble_eq_true rfl, Nat.le_of_ble_eq_true rfl⟩ rfl rfl dX8_lawErrors_96 (fun r24 s24 hp hn24 => ?_)
        subst hp
        try dsimp only at h
        refine r_aload_n G 0 rfl rfl dX8_lawErrors_99 ?_
        refine r_aload G 1 rfl dX8_lawErrors_100 ?_
        refine r_aload G 2 rfl dX8_lawErrors_102 ?_
        refine r_aload G 3 rfl dX8_lawErrors_104 ?_
        refine r_iconst G (v := 0) (by decide) dX8_lawErrors_106 ?_
        refine r_iconst G (v := 1) (by decide) dX8_lawErrors_107 ?_
        obtain ⟨o25, e25, h⟩ := ob h
        refine r_callVi G [.ref (bd p0.toNatClampNeg), .ref (bd p1.toNatClampNeg), .ref (bd p2.toNatClampNeg), .int 0, .int 1] (qX8_parts hE p0.toNatClampNeg (by have := vin_lt g19; omega) p1.toNatClampNeg (by have := vin_lt g20; omega) p2.toNatClampNeg (by have := vin_lt g21; omega) (0 : Int32) (1 : Int32) _ e25) ⟨67, 8, _, _, rfl, (mw_MO bd κ _), rfl⟩ gX8_lawErrors_X8_parts rfl hdX8_parts ⟨Nat.le_of_ble_eq_true rfl, Nat.le_of_ble_eq_true rfl⟩ (Nat.le_of_ble_eq_true rfl) rfl ⟨Nat.le_of_ble_eq_true rfl, Nat.le_of_ble_eq_true rfl⟩ rfl rfl dX8_lawErrors_108 (fun r25 s25 hp hn25 => ?_)
        subst hp
        try dsimp only at h
        refine r_iadd G dX8_lawErrors_111 ?_
        refine r_iadd G dX8_lawErrors_112 ?_
        refine r_istore G (lv' := [(0, .ref (bd 67)), (4, .ref (bd p0.toNatClampNeg)), (5, .ref (bd p1.toNatClampNeg)), (6, .ref (bd p2.toNatClampNeg)), (7, .int ((r22 + r23) + (r24 + r25)))]) [1, 2, 3, 4, 0] rfl (by decide) dX8_lawErrors_113 ?_
        refine r_aload_n G 0 rfl rfl dX8_lawErrors_115 ?_
        refine r_aload G 1 rfl dX8_lawErrors_116 ?_
        refine r_aload G 2 rfl dX8_lawErrors_118 ?_
        refine r_aload G 3 rfl dX8_lawErrors_120 ?_
        refine r_iconst G (v := 0) (by decide) dX8_lawErrors_122 ?_
        refine r_iconst G (v := 2) (by decide) dX8_lawErrors_123 ?_
        refine r_iconst G (v := 1) (by decide) dX8_lawErrors_124 ?_
        refine r_aload_n G 0 rfl rfl dX8_lawErrors_125 ?_
        refine r_get G (C := RX8) (T := TX8) (N := 19) kX8_lawErrors_X8 67 (mw_MO bd κ _) rfl 16 (by decide) mX8_lawErrors_f50 rfl rfl dX8_lawErrors_126 ?_
        obtain ⟨o26, e26, h⟩ := ob h
        refine r_callVv G [.ref (bd p0.toNatClampNeg), .ref (bd p1.toNatClampNeg), .ref (bd p2.toNatClampNeg), .int 0, .int 2, .int 1, .ref (bd 64)] (qX8_three hE p0.toNatClampNeg (by have := vin_lt g19; omega) p1.toNatClampNeg (by have := vin_lt g20; omega) p2.toNatClampNeg (by have := vin_lt g21; omega) (0 : Int32) (2 : Int32) (1 : Int32) 64 (by decide) _ e26) ⟨67, 8, _, _, rfl, (mw_MO bd κ _), rfl⟩ gX8_lawErrors_X8_three rfl hdX8_three ⟨Nat.le_of_ble_eq_true rfl, Nat.le_of_ble_eq_true rfl⟩ (Nat.le_of_ble_eq_true rfl) rfl ⟨Nat.le_of_ble_eq_true rfl, Nat.le_of_ble_eq_true rfl⟩ rfl rfl dX8_lawErrors_129 (fun s26 hp => ?_)
        have hp := hp.symm
        subst hp
        try dsimp only at h
        refine r_aload G 1 rfl dX8_lawErrors_132 ?_
        refine r_aload G 2 rfl dX8_lawErrors_134 ?_
        refine r_iconst G (v := 2) (by decide) dX8_lawErrors_136 ?_
        refine r_aload_n G 0 rfl rfl dX8_lawErrors_137 ?_
        refine r_get G (C := RX8) (T := TX8) (N := 19) kX8_lawErrors_X8 67 (mw_MO bd κ _) rfl 17 (by decide) mX8_lawErrors_f53 rfl rfl dX8_lawErrors_138 ?_
        obtain ⟨o27, e27, h⟩ := ob h
        refine r_callSv G [.ref (bd p0.toNatClampNeg), .ref (bd p1.toNatClampNeg), .int 2, .ref (bd 65)] (qX8_joins hE p0.toNatClampNeg (by have := vin_lt g19; omega) p1.toNatClampNeg (by have := vin_lt g20; omega) (2 : Int32) 65 (by decide) _ e27) gX8_lawErrors_X8_joins rfl hdX8_joins ⟨Nat.le_of_ble_eq_true rfl, Nat.le_of_ble_eq_true rfl⟩ (Nat.le_of_ble_eq_true rfl) rfl ⟨Nat.le_of_ble_eq_true rfl, Nat.le_of_ble_eq_true rfl⟩ rfl rfl dX8_lawErrors_141 (fun s27 hp => ?_)
        have hp := hp.symm
        subst hp
        try dsimp only at h
        refine r_aload G 1 rfl dX8_lawErrors_144 ?_
        refine r_aload G 3 rfl dX8_lawErrors_146 ?_
        refine r_iconst G (v := 2) (by decide) dX8_lawErrors_148 ?_
        refine r_aload_n G 0 rfl rfl dX8_lawErrors_149 ?_
        refine r_get G (C := RX8) (T := TX8) (N := 19) kX8_lawErrors_X8 67 (mw_MO bd κ _) rfl 18 (by decide) mX8_lawErrors_f56 rfl rfl dX8_lawErrors_150 ?_
        obtain ⟨o28, e28, h⟩ := ob h
        refine r_callSv G [.ref (bd p0.toNatClampNeg), .ref (bd p2.toNatClampNeg), .int 2, .ref (bd 66)] (qX8_joins hE p0.toNatClampNeg (by have := vin_lt g19; omega) p2.toNatClampNeg (by have := vin_lt g21; omega) (2 : Int32) 66 (by decide) _ e28) gX8_lawErrors_X8_joins rfl hdX8_joins ⟨Nat.le_of_ble_eq_true rfl, Nat.le_of_ble_eq_true rfl⟩ (Nat.le_of_ble_eq_true rfl) rfl ⟨Nat.le_of_ble_eq_true rfl, Nat.le_of_ble_eq_true rfl⟩ rfl rfl dX8_lawErrors_153 (fun s28 hp => ?_)
        have hp := hp.symm
        subst hp
        try dsimp only at h
        refine r_aload_n G 0 rfl rfl dX8_lawErrors_156 ?_
        refine r_get G (C := RX8) (T := TX8) (N := 19) kX8_lawErrors_X8 67 (mw_MO bd κ _) rfl 17 (by decide) mX8_lawErrors_f53 rfl rfl dX8_lawErrors_157 ?_
        refine r_aload_n G 0 rfl rfl dX8_lawErrors_160 ?_
        refine r_get G (C := RX8) (T := TX8) (N := 19) kX8_lawErrors_X8 67 (mw_MO bd κ _) rfl 18 (by decide) mX8_lawErrors_f56 rfl rfl dX8_lawErrors_161 ?_
        refine r_iconst G (v := 1) (by decide) dX8_lawErrors_164 ?_
        refine r_aload_n G 0 rfl rfl dX8_lawErrors_165 ?_
        refine r_get G (C := RX8) (T := TX8) (N := 19) kX8_lawErrors_X8 67 (mw_MO bd κ _) rfl 17 (by decide) mX8_lawErrors_f53 rfl rfl dX8_lawErrors_166 ?_
        obtain ⟨o29, e29, h⟩ := ob h
        refine r_callSv G [.ref (bd 65), .ref (bd 66), .int 1, .ref (bd 65)] (qX8_joins hE 65 (by decide) 66 (by decide) (1 : Int32) 65 (by decide) _ e29) gX8_lawErrors_X8_joins rfl hdX8_joins ⟨Nat.le_of_ble_eq_true rfl, Nat.le_of_ble_eq_true rfl⟩ (Nat.le_of_ble_eq_true rfl) rfl ⟨Nat.le_of_ble_eq_true rfl, Nat.le_of_ble_eq_true rfl⟩ rfl rfl dX8_lawErrors_169 (fun s29 hp => ?_)
        have hp := hp.symm
        subst hp
        try dsimp only at h
        refine r_iload G 4 rfl dX8_lawErrors_172 ?_
        refine r_aload_n G 0 rfl rfl dX8_lawErrors_174 ?_
        obtain ⟨o30, e30, h⟩ := ob h
        refine r_callVi G [] (qX8_others hE _ e30) ⟨67, 8, _, _, rfl, (mw_MO bd κ _), rfl⟩ gX8_lawErrors_X8_others rfl hdX8_others ⟨Nat.le_of_ble_eq_true rfl, Nat.le_of_ble_eq_true rfl⟩ (Nat.le_of_ble_eq_true rfl) rfl ⟨Nat.le_of_ble_eq_true rfl, Nat.le_of_ble_eq_true rfl⟩ rfl rfl dX8_lawErrors_175 (fun r30 s30 hp hn30 => ?_)
        subst hp
        try dsimp only at h
        refine r_iadd G dX8_lawErrors_178 ?_
        refine r_aload_n G 0 rfl rfl dX8_lawErrors_179 ?_
        refine r_aload G 1 rfl dX8_lawErrors_180 ?_
        refine r_aload G 2 rfl dX8_lawErrors_182 ?_
        obtain ⟨o31, e31, h⟩ := ob h
        refine r_callVi G [.ref (bd p0.toNatClampNeg), .ref (bd p1.toNatClampNeg)] (qX8_within hE p0.toNatClampNeg (by have := vin_lt g19; omega) p1.toNatClampNeg (by have := vin_lt g20; omega) _ e31) ⟨67, 8, _, _, rfl, (mw_MO bd κ _), rfl⟩ gX8_lawErrors_X8_within rfl hdX8_within ⟨Nat.le_of_ble_eq_true rfl, Nat.le_of_ble_eq_true rfl⟩ (Nat.le_of_ble_eq_true rfl) rfl ⟨Nat.le_of_ble_eq_true rfl, Nat.le_of_ble_eq_true rfl⟩ rfl rfl dX8_lawErrors_184 (fun r31 s31 hp hn31 => ?_)
        subst hp
        try dsimp only at h
        refine r_iadd G dX8_lawErrors_187 ?_
        refine r_aload_n G 0 rfl rfl dX8_lawErrors_188 ?_
        refine r_aload G 1 rfl dX8_lawErrors_189 ?_
        refine r_aload G 2 rfl dX8_lawErrors_191 ?_
        refine r_aload G 3 rfl dX8_lawErrors_193 ?_
        obtain ⟨o32, e32, h⟩ := ob h
        refine r_callVi G [.ref (bd p0.toNatClampNeg), .ref (bd p1.toNatClampNeg), .ref (bd p2.toNatClampNeg)] (qX8_sizes hE p0.toNatClampNeg (by have := vin_lt g19; omega) p1.toNatClampNeg (by have := vin_lt g20; omega) p2.toNatClampNeg (by have := vin_lt g21; omega) _ e32) ⟨67, 8, _, _, rfl, (mw_MO bd κ _), rfl⟩ gX8_lawErrors_X8_sizes rfl hdX8_sizes ⟨Nat.le_of_ble_eq_true rfl, Nat.le_of_ble_eq_true rfl⟩ (Nat.le_of_ble_eq_true rfl) rfl ⟨Nat.le_of_ble_eq_true rfl, Nat.le_of_ble_eq_true rfl⟩ rfl rfl dX8_lawErrors_195 (fun r32 s32 hp hn32 => ?_)
        subst hp
        try dsimp only at h
        refine r_iadd G dX8_lawErrors_198 ?_
        exact hret _ _ _ _ _ _ dX8_lawErrors_199 (Option.some.inj h).symm rfl (Nat.le_of_ble_eq_true rfl) (Nat.le_of_ble_eq_true rfl)
      · rw [if_pos c] at h
        refine r_iconst G (v := 0) (by decide) dX8_lawErrors_34 ?_
        exact hret _ _ _ _ _ _ dX8_lawErrors_35 (Option.some.inj h).symm rfl (Nat.le_of_ble_eq_true rfl) (Nat.le_of_ble_eq_true rfl)
    · rw [if_neg c] at h
      refine r_iload_n G 3 rfl rfl dX8_lawErrors_15 ?_
      refine r_callSi G [.int p2] (qX8_isSet hE p2 _) gX8_lawErrors_X8_isSet rfl hdX8_isSet ⟨Nat.le_of_ble_eq_true rfl, Nat.le_of_ble_eq_true rfl⟩ (Nat.le_of_ble_eq_true rfl) rfl ⟨Nat.le_of_ble_eq_true rfl, Nat.le_of_ble_eq_true rfl⟩ rfl rfl dX8_lawErrors_16 (fun r33 s33 hp hn33 => ?_)
      obtain ⟨rfl, hs⟩ := hp
      have hs := hs.symm
      subst hs
      refine r_if_eq G (tgt := 26) dX8_lawErrors_19 (by decide) (fun c => ?_) (fun c => ?_)
      · rw [if_pos c] at h
        refine r_iconst G (v := 0) (by decide) dX8_lawErrors_26 ?_
        refine r_iconst G (v := 1) (by decide) dX8_lawErrors_27 ?_
        obtain ⟨o34, e34, h⟩ := ob h
        refine r_callVi G [.int 0, .int 1] (qX8_passes hE (0 : Int32) (1 : Int32) _ e34) ⟨67, 8, _, _, rfl, (mw_MO bd κ _), rfl⟩ gX8_lawErrors_X8_passes rfl hdX8_passes ⟨Nat.le_of_ble_eq_true rfl, Nat.le_of_ble_eq_true rfl⟩ (Nat.le_of_ble_eq_true rfl) rfl ⟨Nat.le_of_ble_eq_true rfl, Nat.le_of_ble_eq_true rfl⟩ rfl rfl dX8_lawErrors_28 (fun r34 s34 hp hn34 => ?_)
        subst hp
        try dsimp only at h
        refine r_if_ne G (tgt := 36) dX8_lawErrors_31 (by decide) (fun c => ?_) (fun c => ?_)
        · rw [if_neg c] at h
          refine r_aload_n G 0 rfl rfl dX8_lawErrors_36 ?_
          refine r_get G (C := RX8) (T := TX8) (N := 19) kX8_lawErrors_X8 67 (mw_MO bd κ _) rfl 1 (by decide) mX8_lawErrors_f27 rfl rfl dX8_lawErrors_37 ?_
          refine r_iload_n G 1 rfl rfl dX8_lawErrors_40 ?_
          obtain ⟨g35, h⟩ := og h
          refine r_aldA G 68 5 (mw_SETSG bd κ _) rfl (vin_in g35) rfl dX8_lawErrors_41 ?_
          refine r_astore G (lv' := [(0, .ref (bd 67)), (2, .int p1), (3, .int p2), (4, .ref (bd p0.toNatClampNeg))]) [1, 3, 4, 0] rfl (by decide) dX8_lawErrors_42 ?_
          refine r_aload_n G 0 rfl rfl dX8_lawErrors_44 ?_
          refine r_get G (C := RX8) (T := TX8) (N := 19) kX8_lawErrors_X8 67 (mw_MO bd κ _) rfl 1 (by decide) mX8_lawErrors_f27 rfl rfl dX8_lawErrors_45 ?_
          refine r_iload_n G 1 rfl rfl dX8_lawErrors_48 ?_
          obtain ⟨g36, h⟩ := og h
          refine r_aldA G 68 5 (mw_SETSG bd κ _) rfl (vin_in g36) rfl dX8_lawErrors_49 ?_
          refine r_astore G (lv' := [(0, .ref (bd 67)), (3, .int p2), (4, .ref (bd p0.toNatClampNeg)), (5, .ref (bd p1.toNatClampNeg))]) [1, 3, 4, 0] rfl (by decide) dX8_lawErrors_50 ?_
          refine r_aload_n G 0 rfl rfl dX8_lawErrors_52 ?_
          refine r_get G (C := RX8) (T := TX8) (N := 19) kX8_lawErrors_X8 67 (mw_MO bd κ _) rfl 1 (by decide) mX8_lawErrors_f27 rfl rfl dX8_lawErrors_53 ?_
          refine r_iload_n G 1 rfl rfl dX8_lawErrors_56 ?_
          obtain ⟨g37, h⟩ := og h
          refine r_aldA G 68 5 (mw_SETSG bd κ _) rfl (vin_in g37) rfl dX8_lawErrors_57 ?_
          refine r_astore G (lv' := [(0, .ref (bd 67)), (4, .ref (bd p0.toNatClampNeg)), (5, .ref (bd p1.toNatClampNeg)), (6, .ref (bd p2.toNatClampNeg))]) [1, 3, 4, 0] rfl (by decide) dX8_lawErrors_58 ?_
          refine r_aload_n G 0 rfl rfl dX8_lawErrors_60 ?_
          refine r_aload G 1 rfl dX8_lawErrors_61 ?_
          refine r_aload G 2 rfl dX8_lawErrors_63 ?_
          refine r_aload G 3 rfl dX8_lawErrors_65 ?_
          refine r_iconst G (v := 0) (by decide) dX8_lawErrors_67 ?_
          obtain ⟨o38, e38, h⟩ := ob h
          refine r_callVi G [.ref (bd p0.toNatClampNeg), .ref (bd p1.toNatClampNeg), .ref (bd p2.toNatClampNeg), .int 0] (qX8_ordersAndBrackets hE p0.toNatClampNeg (by have := vin_lt g35; omega) p1.toNatClampNeg (by have := vin_lt g36; omega) p2.toNatClampNeg (by have := vin_lt g37; omega) (0 : Int32) _ e38) ⟨67, 8, _, _, rfl, (mw_MO bd κ _), rfl⟩ gX8_lawErrors_X8_ordersAndBrackets rfl hdX8_ordersAndBrackets ⟨Nat.le_of_ble_eq_true rfl, Nat.le_of_ble_eq_true rfl⟩ (Nat.le_of_ble_eq_true rfl) rfl ⟨Nat.le_of_ble_eq_true rfl, Nat.le_of_ble_eq_true rfl⟩ rfl rfl dX8_lawErrors_68 (fun r38 s38 hp hn38 => ?_)
          subst hp
          try dsimp only at h
          refine r_aload_n G 0 rfl rfl dX8_lawErrors_71 ?_
          refine r_aload G 1 rfl dX8_lawErrors_72 ?_
          refine r_aload G 2 rfl dX8_lawErrors_74 ?_
          refine r_aload G 3 rfl dX8_lawErrors_76 ?_
          refine r_iconst G (v := 1) (by decide) dX8_lawErrors_78 ?_
          obtain ⟨o39, e39, h⟩ := ob h
          refine r_callVi G [.ref (bd p0.toNatClampNeg), .ref (bd p1.toNatClampNeg), .ref (bd p2.toNatClampNeg), .int 1] (qX8_ordersAndBrackets hE p0.toNatClampNeg (by have := vin_lt g35; omega) p1.toNatClampNeg (by have := vin_lt g36; omega) p2.toNatClampNeg (by have := vin_lt g37; omega) (1 : Int32) _ e39) ⟨67, 8, _, _, rfl, (mw_MO bd κ _), rfl⟩ gX8_lawErrors_X8_ordersAndBrackets rfl hdX8_ordersAndBrackets ⟨Nat.le_of_ble_eq_true rfl, Nat.le_of_ble_eq_true rfl⟩ (Nat.le_of_ble_eq_true rfl) rfl ⟨Nat.le_of_ble_eq_true rfl, Nat.le_of_ble_eq_true rfl⟩ rfl rfl dX8_lawErrors_79 (fun r39 s39 hp hn39 => ?_)
          subst hp
          try dsimp only at h
          refine r_iadd G dX8_lawErrors_82 ?_
          refine r_istore G (lv' := [(0, .ref (bd 67)), (4, .ref (bd p0.toNatClampNeg)), (5, .ref (bd p1.toNatClampNeg)), (6, .ref (bd p2.toNatClampNeg)), (7, .int (r38 + r39))]) [1, 2, 3, 4, 0] rfl (by decide) dX8_lawErrors_83 ?_
          refine r_iload G 4 rfl dX8_lawErrors_85 ?_
          refine r_aload_n G 0 rfl rfl dX8_lawErrors_87 ?_
          refine r_aload G 1 rfl dX8_lawErrors_88 ?_
          refine r_aload G 2 rfl dX8_lawErrors_90 ?_
          refine r_aload G 3 rfl dX8_lawErrors_92 ?_
          refine r_iconst G (v := 1) (by decide) dX8_lawErrors_94 ?_
          refine r_iconst G (v := 0) (by decide) dX8_lawErrors_95 ?_
          obtain ⟨o40, e40, h⟩ := ob h
          refine r_callVi G [.ref (bd p0.toNatClampNeg), .ref (bd p1.toNatClampNeg), .ref (bd p2.toNatClampNeg), .int 1, .int 0] (qX8_parts hE p0.toNatClampNeg (by have := vin_lt g35; omega) p1.toNatClampNeg (by have := vin_lt g36; omega) p2.toNatClampNeg (by have := vin_lt g37; omega) (1 : Int32) (0 : Int32) _ e40) ⟨67, 8, _, _, rfl, (mw_MO bd κ _), rfl⟩ gX8_lawErrors_X8_parts rfl hdX8_parts ⟨Nat.le_of_ble_eq_true rfl, Nat.le_of_ble_eq_true rfl⟩ (Nat.le_of_ble_eq_true rfl) rfl ⟨Nat.le_of_ble_eq_true rfl, Nat.le_of_ble_eq_true rfl⟩ rfl rfl dX8_lawErrors_96 (fun r40 s40 hp hn40 => ?_)
          subst hp
          try dsimp only at h
          refine r_aload_n G 0 rfl rfl dX8_lawErrors_99 ?_
          refine r_aload G 1 rfl dX8_lawErrors_100 ?_
          refine r_aload G 2 rfl dX8_lawErrors_102 ?_
          refine r_aload G 3 rfl dX8_lawErrors_104 ?_
          refine r_iconst G (v := 0) (by decide) dX8_lawErrors_106 ?_
          refine r_iconst G (v := 1) (by decide) dX8_lawErrors_107 ?_
          obtain ⟨o41, e41, h⟩ := ob h
          refine r_callVi G [.ref (bd p0.toNatClampNeg), .ref (bd p1.toNatClampNeg), .ref (bd p2.toNatClampNeg), .int 0, .int 1] (qX8_parts hE p0.toNatClampNeg (by have := vin_lt g35; omega) p1.toNatClampNeg (by have := vin_lt g36; omega) p2.toNatClampNeg (by have := vin_lt g37; omega) (0 : Int32) (1 : Int32) _ e41) ⟨67, 8, _, _, rfl, (mw_MO bd κ _), rfl⟩ gX8_lawErrors_X8_parts rfl hdX8_parts ⟨Nat.le_of_ble_eq_true rfl, Nat.le_of_ble_eq_true rfl⟩ (Nat.le_of_ble_eq_true rfl) rfl ⟨Nat.le_of_ble_eq_true rfl, Nat.le_of_ble_eq_true rfl⟩ rfl rfl dX8_lawErrors_108 (fun r41 s41 hp hn41 => ?_)
          subst hp
          try dsimp only at h
          refine r_iadd G dX8_lawErrors_111 ?_
          refine r_iadd G dX8_lawErrors_112 ?_
          refine r_istore G (lv' := [(0, .ref (bd 67)), (4, .ref (bd p0.toNatClampNeg)), (5, .ref (bd p1.toNatClampNeg)), (6, .ref (bd p2.toNatClampNeg)), (7, .int ((r38 + r39) + (r40 + r41)))]) [1, 2, 3, 4, 0] rfl (by decide) dX8_lawErrors_113 ?_
          refine r_aload_n G 0 rfl rfl dX8_lawErrors_115 ?_
          refine r_aload G 1 rfl dX8_lawErrors_116 ?_
          refine r_aload G 2 rfl dX8_lawErrors_118 ?_
          refine r_aload G 3 rfl dX8_lawErrors_120 ?_
          refine r_iconst G (v := 0) (by decide) dX8_lawErrors_122 ?_
          refine r_iconst G (v := 2) (by decide) dX8_lawErrors_123 ?_
          refine r_iconst G (v := 1) (by decide) dX8_lawErrors_124 ?_
          refine r_aload_n G 0 rfl rfl dX8_lawErrors_125 ?_
          refine r_get G (C := RX8) (T := TX8) (N := 19) kX8_lawErrors_X8 67 (mw_MO bd κ _) rfl 16 (by decide) mX8_lawErrors_f50 rfl rfl dX8_lawErrors_126 ?_
          obtain ⟨o42, e42, h⟩ := ob h
          refine r_callVv G [.ref (bd p0.toNatClampNeg), .ref (bd p1.toNatClampNeg), .ref (bd p2.toNatClampNeg), .int 0, .int 2, .int 1, .ref (bd 64)] (qX8_three hE p0.toNatClampNeg (by have := vin_lt g35; omega) p1.toNatClampNeg (by have := vin_lt g36; omega) p2.toNatClampNeg (by have := vin_lt g37; omega) (0 : Int32) (2 : Int32) (1 : Int32) 64 (by decide) _ e42) ⟨67, 8, _, _, rfl, (mw_MO bd κ _), rfl⟩ gX8_lawErrors_X8_three rfl hdX8_three ⟨Nat.le_of_ble_eq_true rfl, Nat.le_of_ble_eq_true rfl⟩ (Nat.le_of_ble_eq_true rfl) rfl ⟨Nat.le_of_ble_eq_true rfl, Nat.le_of_ble_eq_true rfl⟩ rfl rfl dX8_lawErrors_129 (fun s42 hp => ?_)
          have hp := hp.symm
          subst hp
          try dsimp only at h
          refine r_aload G 1 rfl dX8_lawErrors_132 ?_
          refine r_aload G 2 rfl dX8_lawErrors_134 ?_
          refine r_iconst G (v := 2) (by decide) dX8_lawErrors_136 ?_
          refine r_aload_n G 0 rfl rfl dX8_lawErrors_137 ?_
          refine r_get G (C := RX8) (T := TX8) (N := 19) kX8_lawErrors_X8 67 (mw_MO bd κ _) rfl 17 (by decide) mX8_lawErrors_f53 rfl rfl dX8_lawErrors_138 ?_
          obtain ⟨o43, e43, h⟩ := ob h
          refine r_callSv G [.ref (bd p0.toNatClampNeg), .ref (bd p1.toNatClampNeg), .int 2, .ref (bd 65)] (qX8_joins hE p0.toNatClampNeg (by have := vin_lt g35; omega) p1.toNatClampNeg (by have := vin_lt g36; omega) (2 : Int32) 65 (by decide) _ e43) gX8_lawErrors_X8_joins rfl hdX8_joins ⟨Nat.le_of_ble_eq_true rfl, Nat.le_of_ble_eq_true rfl⟩ (Nat.le_of_ble_eq_true rfl) rfl ⟨Nat.le_of_ble_eq_true rfl, Nat.le_of_ble_eq_true rfl⟩ rfl rfl dX8_lawErrors_141 (fun s43 hp => ?_)
          have hp := hp.symm
          subst hp
          try dsimp only at h
          refine r_aload G 1 rfl dX8_lawErrors_144 ?_
          refine r_aload G 3 rfl dX8_lawErrors_146 ?_
          refine r_iconst G (v := 2) (by decide) dX8_lawErrors_148 ?_
          refine r_aload_n G 0 rfl rfl dX8_lawErrors_149 ?_
          refine r_get G (C := RX8) (T := TX8) (N := 19) kX8_lawErrors_X8 67 (mw_MO bd κ _) rfl 18 (by decide) mX8_lawErrors_f56 rfl rfl dX8_lawErrors_150 ?_
          obtain ⟨o44, e44, h⟩ := ob h
          refine r_callSv G [.ref (bd p0.toNatClampNeg), .ref (bd p2.toNatClampNeg), .int 2, .ref (bd 66)] (qX8_joins hE p0.toNatClampNeg (by have := vin_lt g35; omega) p2.toNatClampNeg (by have := vin_lt g37; omega) (2 : Int32) 66 (by decide) _ e44) gX8_lawErrors_X8_joins rfl hdX8_joins ⟨Nat.le_of_ble_eq_true rfl, Nat.le_of_ble_eq_true rfl⟩ (Nat.le_of_ble_eq_true rfl) rfl ⟨Nat.le_of_ble_eq_true rfl, Nat.le_of_ble_eq_true rfl⟩ rfl rfl dX8_lawErrors_153 (fun s44 hp => ?_)
          have hp := hp.symm
          subst hp
          try dsimp only at h
          refine r_aload_n G 0 rfl rfl dX8_lawErrors_156 ?_
          refine r_get G (C := RX8) (T := TX8) (N := 19) kX8_lawErrors_X8 67 (mw_MO bd κ _) rfl 17 (by decide) mX8_lawErrors_f53 rfl rfl dX8_lawErrors_157 ?_
          refine r_aload_n G 0 rfl rfl dX8_lawErrors_160 ?_
          refine r_get G (C := RX8) (T := TX8) (N := 19) kX8_lawErrors_X8 67 (mw_MO bd κ _) rfl 18 (by decide) mX8_lawErrors_f56 rfl rfl dX8_lawErrors_161 ?_
          refine r_iconst G (v := 1) (by decide) dX8_lawErrors_164 ?_
          refine r_aload_n G 0 rfl rfl dX8_lawErrors_165 ?_
          refine r_get G (C := RX8) (T := TX8) (N := 19) kX8_lawErrors_X8 67 (mw_MO bd κ _) rfl 17 (by decide) mX8_lawErrors_f53 rfl rfl dX8_lawErrors_166 ?_
          obtain ⟨o45, e45, h⟩ := ob h
          refine r_callSv G [.ref (bd 65), .ref (bd 66), .int 1, .ref (bd 65)] (qX8_joins hE 65 (by decide) 66 (by decide) (1 : Int32) 65 (by decide) _ e45) gX8_lawErrors_X8_joins rfl hdX8_joins ⟨Nat.le_of_ble_eq_true rfl, Nat.le_of_ble_eq_true rfl⟩ (Nat.le_of_ble_eq_true rfl) rfl ⟨Nat.le_of_ble_eq_true rfl, Nat.le_of_ble_eq_true rfl⟩ rfl rfl dX8_lawErrors_169 (fun s45 hp => ?_)
          have hp := hp.symm
          subst hp
          try dsimp only at h
          refine r_iload G 4 rfl dX8_lawErrors_172 ?_
          refine r_aload_n G 0 rfl rfl dX8_lawErrors_174 ?_
          obtain ⟨o46, e46, h⟩ := ob h
          refine r_callVi G [] (qX8_others hE _ e46) ⟨67, 8, _, _, rfl, (mw_MO bd κ _), rfl⟩ gX8_lawErrors_X8_others rfl hdX8_others ⟨Nat.le_of_ble_eq_true rfl, Nat.le_of_ble_eq_true rfl⟩ (Nat.le_of_ble_eq_true rfl) rfl ⟨Nat.le_of_ble_eq_true rfl, Nat.le_of_ble_eq_true rfl⟩ rfl rfl dX8_lawErrors_175 (fun r46 s46 hp hn46 => ?_)
          subst hp
          try dsimp only at h
          refine r_iadd G dX8_lawErrors_178 ?_
          refine r_aload_n G 0 rfl rfl dX8_lawErrors_179 ?_
          refine r_aload G 1 rfl dX8_lawErrors_180 ?_
          refine r_aload G 2 rfl dX8_lawErrors_182 ?_
          obtain ⟨o47, e47, h⟩ := ob h
          refine r_callVi G [.ref (bd p0.toNatClampNeg), .ref (bd p1.toNatClampNeg)] (qX8_within hE p0.toNatClampNeg (by have := vin_lt g35; omega) p1.toNatClampNeg (by have := vin_lt g36; omega) _ e47) ⟨67, 8, _, _, rfl, (mw_MO bd κ _), rfl⟩ gX8_lawErrors_X8_within rfl hdX8_within ⟨Nat.le_of_ble_eq_true rfl, Nat.le_of_ble_eq_true rfl⟩ (Nat.le_of_ble_eq_true rfl) rfl ⟨Nat.le_of_ble_eq_true rfl, Nat.le_of_ble_eq_true rfl⟩ rfl rfl dX8_lawErrors_184 (fun r47 s47 hp hn47 => ?_)
          subst hp
          try dsimp only at h
          refine r_iadd G dX8_lawErrors_187 ?_
          refine r_aload_n G 0 rfl rfl dX8_lawErrors_188 ?_
          refine r_aload G 1 rfl dX8_lawErrors_189 ?_
          refine r_aload G 2 rfl dX8_lawErrors_191 ?_
          refine r_aload G 3 rfl dX8_lawErrors_193 ?_
          obtain ⟨o48, e48, h⟩ := ob h
          refine r_callVi G [.ref (bd p0.toNatClampNeg), .ref (bd p1.toNatClampNeg), .ref (bd p2.toNatClampNeg)] (qX8_sizes hE p0.toNatClampNeg (by have := vin_lt g35; omega) p1.toNatClampNeg (by have := vin_lt g36; omega) p2.toNatClampNeg (by have := vin_lt g37; omega) _ e48) ⟨67, 8, _, _, rfl, (mw_MO bd κ _), rfl⟩ gX8_lawErrors_X8_sizes rfl hdX8_sizes ⟨Nat.le_of_ble_eq_true rfl, Nat.le_of_ble_eq_true rfl⟩ (Nat.le_of_ble_eq_true rfl) rfl ⟨Nat.le_of_ble_eq_true rfl, Nat.le_of_ble_eq_true rfl⟩ rfl rfl dX8_lawErrors_195 (fun r48 s48 hp hn48 => ?_)
          subst hp
          try dsimp only at h
          refine r_iadd G dX8_lawErrors_198 ?_
          exact hret _ _ _ _ _ _ dX8_lawErrors_199 (Option.some.inj h).symm rfl (Nat.le_of_ble_eq_true rfl) (Nat.le_of_ble_eq_true rfl)
        · rw [if_pos c] at h
          refine r_iconst G (v := 0) (by decide) dX8_lawErrors_34 ?_
          exact hret _ _ _ _ _ _ dX8_lawErrors_35 (Option.some.inj h).symm rfl (Nat.le_of_ble_eq_true rfl) (Nat.le_of_ble_eq_true rfl)
      · rw [if_neg c] at h
        refine r_iconst G (v := 1) (by decide) dX8_lawErrors_22 ?_
        refine r_goto G (tgt := 27) dX8_lawErrors_23 (by decide) ?_
        refine r_iconst G (v := 1) (by decide) dX8_lawErrors_27 ?_
        obtain ⟨o49, e49, h⟩ := ob h
        refine r_callVi G [.int 1, .int 1] (qX8_passes hE (1 : Int32) (1 : Int32) _ e49) ⟨67, 8, _, _, rfl, (mw_MO bd κ _), rfl⟩ gX8_lawErrors_X8_passes rfl hdX8_passes ⟨Nat.le_of_ble_eq_true rfl, Nat.le_of_ble_eq_true rfl⟩ (Nat.le_of_ble_eq_true rfl) rfl ⟨Nat.le_of_ble_eq_true rfl, Nat.le_of_ble_eq_true rfl⟩ rfl rfl dX8_lawErrors_28 (fun r49 s49 hp hn49 => ?_)
        subst hp
        try dsimp only at h
        refine r_if_ne G (tgt := 36) dX8_lawErrors_31 (by decide) (fun c => ?_) (fun c => ?_)
        · rw [if_neg c] at h
          refine r_aload_n G 0 rfl rfl dX8_lawErrors_36 ?_
          refine r_get G (C := RX8) (T := TX8) (N := 19) kX8_lawErrors_X8 67 (mw_MO bd κ _) rfl 1 (by decide) mX8_lawErrors_f27 rfl rfl dX8_lawErrors_37 ?_
          refine r_iload_n G 1 rfl rfl dX8_lawErrors_40 ?_
          obtain ⟨g50, h⟩ := og h
          refine r_aldA G 68 5 (mw_SETSG bd κ _) rfl (vin_in g50) rfl dX8_lawErrors_41 ?_
          refine r_astore G (lv' := [(0, .ref (bd 67)), (2, .int p1), (3, .int p2), (4, .ref (bd p0.toNatClampNeg))]) [1, 3, 4, 0] rfl (by decide) dX8_lawErrors_42 ?_
          refine r_aload_n G 0 rfl rfl dX8_lawErrors_44 ?_
          refine r_get G (C := RX8) (T := TX8) (N := 19) kX8_lawErrors_X8 67 (mw_MO bd κ _) rfl 1 (by decide) mX8_lawErrors_f27 rfl rfl dX8_lawErrors_45 ?_
          refine r_iload_n G 1 rfl rfl dX8_lawErrors_48 ?_
          obtain ⟨g51, h⟩ := og h
          refine r_aldA G 68 5 (mw_SETSG bd κ _) rfl (vin_in g51) rfl dX8_lawErrors_49 ?_
          refine r_astore G (lv' := [(0, .ref (bd 67)), (3, .int p2), (4, .ref (bd p0.toNatClampNeg)), (5, .ref (bd p1.toNatClampNeg))]) [1, 3, 4, 0] rfl (by decide) dX8_lawErrors_50 ?_
          refine r_aload_n G 0 rfl rfl dX8_lawErrors_52 ?_
          refine r_get G (C := RX8) (T := TX8) (N := 19) kX8_lawErrors_X8 67 (mw_MO bd κ _) rfl 1 (by decide) mX8_lawErrors_f27 rfl rfl dX8_lawErrors_53 ?_
          refine r_iload_n G 1 rfl rfl dX8_lawErrors_56 ?_
          obtain ⟨g52, h⟩ := og h
          refine r_aldA G 68 5 (mw_SETSG bd κ _) rfl (vin_in g52) rfl dX8_lawErrors_57 ?_
          refine r_astore G (lv' := [(0, .ref (bd 67)), (4, .ref (bd p0.toNatClampNeg)), (5, .ref (bd p1.toNatClampNeg)), (6, .ref (bd p2.toNatClampNeg))]) [1, 3, 4, 0] rfl (by decide) dX8_lawErrors_58 ?_
          refine r_aload_n G 0 rfl rfl dX8_lawErrors_60 ?_
          refine r_aload G 1 rfl dX8_lawErrors_61 ?_
          refine r_aload G 2 rfl dX8_lawErrors_63 ?_
          refine r_aload G 3 rfl dX8_lawErrors_65 ?_
          refine r_iconst G (v := 0) (by decide) dX8_lawErrors_67 ?_
          obtain ⟨o53, e53, h⟩ := ob h
          refine r_callVi G [.ref (bd p0.toNatClampNeg), .ref (bd p1.toNatClampNeg), .ref (bd p2.toNatClampNeg), .int 0] (qX8_ordersAndBrackets hE p0.toNatClampNeg (by have := vin_lt g50; omega) p1.toNatClampNeg (by have := vin_lt g51; omega) p2.toNatClampNeg (by have := vin_lt g52; omega) (0 : Int32) _ e53) ⟨67, 8, _, _, rfl, (mw_MO bd κ _), rfl⟩ gX8_lawErrors_X8_ordersAndBrackets rfl hdX8_ordersAndBrackets ⟨Nat.le_of_ble_eq_true rfl, Nat.le_of_ble_eq_true rfl⟩ (Nat.le_of_ble_eq_true rfl) rfl ⟨Nat.le_of_ble_eq_true rfl, Nat.le_of_ble_eq_true rfl⟩ rfl rfl dX8_lawErrors_68 (fun r53 s53 hp hn53 => ?_)
          subst hp
          try dsimp only at h
          refine r_aload_n G 0 rfl rfl dX8_lawErrors_71 ?_
          refine r_aload G 1 rfl dX8_lawErrors_72 ?_
          refine r_aload G 2 rfl dX8_lawErrors_74 ?_
          refine r_aload G 3 rfl dX8_lawErrors_76 ?_
          refine r_iconst G (v := 1) (by decide) dX8_lawErrors_78 ?_
          obtain ⟨o54, e54, h⟩ := ob h
          refine r_callVi G [.ref (bd p0.toNatClampNeg), .ref (bd p1.toNatClampNeg), .ref (bd p2.toNatClampNeg), .int 1] (qX8_ordersAndBrackets hE p0.toNatClampNeg (by have := vin_lt g50; omega) p1.toNatClampNeg (by have := vin_lt g51; omega) p2.toNatClampNeg (by have := vin_lt g52; omega) (1 : Int32) _ e54) ⟨67, 8, _, _, rfl, (mw_MO bd κ _), rfl⟩ gX8_lawErrors_X8_ordersAndBrackets rfl hdX8_ordersAndBrackets ⟨Nat.le_of_ble_eq_true rfl, Nat.le_of_ble_eq_true rfl⟩ (Nat.le_of_ble_eq_true rfl) rfl ⟨Nat.le_of_ble_eq_true rfl, Nat.le_of_ble_eq_true rfl⟩ rfl rfl dX8_lawErrors_79 (fun r54 s54 hp hn54 => ?_)
          subst hp
          try dsimp only at h
          refine r_iadd G dX8_lawErrors_82 ?_
          refine r_istore G (lv' := [(0, .ref (bd 67)), (4, .ref (bd p0.toNatClampNeg)), (5, .ref (bd p1.toNatClampNeg)), (6, .ref (bd p2.toNatClampNeg)), (7, .int (r53 + r54))]) [1, 2, 3, 4, 0] rfl (by decide) dX8_lawErrors_83 ?_
          refine r_iload G 4 rfl dX8_lawErrors_85 ?_
          refine r_aload_n G 0 rfl rfl dX8_lawErrors_87 ?_
          refine r_aload G 1 rfl dX8_lawErrors_88 ?_
          refine r_aload G 2 rfl dX8_lawErrors_90 ?_
          refine r_aload G 3 rfl dX8_lawErrors_92 ?_
          refine r_iconst G (v := 1) (by decide) dX8_lawErrors_94 ?_
          refine r_iconst G (v := 0) (by decide) dX8_lawErrors_95 ?_
          obtain ⟨o55, e55, h⟩ := ob h
          refine r_callVi G [.ref (bd p0.toNatClampNeg), .ref (bd p1.toNatClampNeg), .ref (bd p2.toNatClampNeg), .int 1, .int 0] (qX8_parts hE p0.toNatClampNeg (by have := vin_lt g50; omega) p1.toNatClampNeg (by have := vin_lt g51; omega) p2.toNatClampNeg (by have := vin_lt g52; omega) (1 : Int32) (0 : Int32) _ e55) ⟨67, 8, _, _, rfl, (mw_MO bd κ _), rfl⟩ gX8_lawErrors_X8_parts rfl hdX8_parts ⟨Nat.le_of_ble_eq_true rfl, Nat.le_of_ble_eq_true rfl⟩ (Nat.le_of_ble_eq_true rfl) rfl ⟨Nat.le_of_ble_eq_true rfl, Nat.le_of_ble_eq_true rfl⟩ rfl rfl dX8_lawErrors_96 (fun r55 s55 hp hn55 => ?_)
          subst hp
          try dsimp only at h
          refine r_aload_n G 0 rfl rfl dX8_lawErrors_99 ?_
          refine r_aload G 1 rfl dX8_lawErrors_100 ?_
          refine r_aload G 2 rfl dX8_lawErrors_102 ?_
          refine r_aload G 3 rfl dX8_lawErrors_104 ?_
          refine r_iconst G (v := 0) (by decide) dX8_lawErrors_106 ?_
          refine r_iconst G (v := 1) (by decide) dX8_lawErrors_107 ?_
          obtain ⟨o56, e56, h⟩ := ob h
          refine r_callVi G [.ref (bd p0.toNatClampNeg), .ref (bd p1.toNatClampNeg), .ref (bd p2.toNatClampNeg), .int 0, .int 1] (qX8_parts hE p0.toNatClampNeg (by have := vin_lt g50; omega) p1.toNatClampNeg (by have := vin_lt g51; omega) p2.toNatClampNeg (by have := vin_lt g52; omega) (0 : Int32) (1 : Int32) _ e56) ⟨67, 8, _, _, rfl, (mw_MO bd κ _), rfl⟩ gX8_lawErrors_X8_parts rfl hdX8_parts ⟨Nat.le_of_ble_eq_true rfl, Nat.le_of_ble_eq_true rfl⟩ (Nat.le_of_ble_eq_true rfl) rfl ⟨Nat.le_of_ble_eq_true rfl, Nat.le_of_ble_eq_true rfl⟩ rfl rfl dX8_lawErrors_108 (fun r56 s56 hp hn56 => ?_)
          subst hp
          try dsimp only at h
          refine r_iadd G dX8_lawErrors_111 ?_
          refine r_iadd G dX8_lawErrors_112 ?_
          refine r_istore G (lv' := [(0, .ref (bd 67)), (4, .ref (bd p0.toNatClampNeg)), (5, .ref (bd p1.toNatClampNeg)), (6, .ref (bd p2.toNatClampNeg)), (7, .int ((r53 + r54) + (r55 + r56)))]) [1, 2, 3, 4, 0] rfl (by decide) dX8_lawErrors_113 ?_
          refine r_aload_n G 0 rfl rfl dX8_lawErrors_115 ?_
          refine r_aload G 1 rfl dX8_lawErrors_116 ?_
          refine r_aload G 2 rfl dX8_lawErrors_118 ?_
          refine r_aload G 3 rfl dX8_lawErrors_120 ?_
          refine r_iconst G (v := 0) (by decide) dX8_lawErrors_122 ?_
          refine r_iconst G (v := 2) (by decide) dX8_lawErrors_123 ?_
          refine r_iconst G (v := 1) (by decide) dX8_lawErrors_124 ?_
          refine r_aload_n G 0 rfl rfl dX8_lawErrors_125 ?_
          refine r_get G (C := RX8) (T := TX8) (N := 19) kX8_lawErrors_X8 67 (mw_MO bd κ _) rfl 16 (by decide) mX8_lawErrors_f50 rfl rfl dX8_lawErrors_126 ?_
          obtain ⟨o57, e57, h⟩ := ob h
          refine r_callVv G [.ref (bd p0.toNatClampNeg), .ref (bd p1.toNatClampNeg), .ref (bd p2.toNatClampNeg), .int 0, .int 2, .int 1, .ref (bd 64)] (qX8_three hE p0.toNatClampNeg (by have := vin_lt g50; omega) p1.toNatClampNeg (by have := vin_lt g51; omega) p2.toNatClampNeg (by have := vin_lt g52; omega) (0 : Int32) (2 : Int32) (1 : Int32) 64 (by decide) _ e57) ⟨67, 8, _, _, rfl, (mw_MO bd κ _), rfl⟩ gX8_lawErrors_X8_three rfl hdX8_three ⟨Nat.le_of_ble_eq_true rfl, Nat.le_of_ble_eq_true rfl⟩ (Nat.le_of_ble_eq_true rfl) rfl ⟨Nat.le_of_ble_eq_true rfl, Nat.le_of_ble_eq_true rfl⟩ rfl rfl dX8_lawErrors_129 (fun s57 hp => ?_)
          have hp := hp.symm
          subst hp
          try dsimp only at h
          refine r_aload G 1 rfl dX8_lawErrors_132 ?_
          refine r_aload G 2 rfl dX8_lawErrors_134 ?_
          refine r_iconst G (v := 2) (by decide) dX8_lawErrors_136 ?_
          refine r_aload_n G 0 rfl rfl dX8_lawErrors_137 ?_
          refine r_get G (C := RX8) (T := TX8) (N := 19) kX8_lawErrors_X8 67 (mw_MO bd κ _) rfl 17 (by decide) mX8_lawErrors_f53 rfl rfl dX8_lawErrors_138 ?_
          obtain ⟨o58, e58, h⟩ := ob h
          refine r_callSv G [.ref (bd p0.toNatClampNeg), .ref (bd p1.toNatClampNeg), .int 2, .ref (bd 65)] (qX8_joins hE p0.toNatClampNeg (by have := vin_lt g50; omega) p1.toNatClampNeg (by have := vin_lt g51; omega) (2 : Int32) 65 (by decide) _ e58) gX8_lawErrors_X8_joins rfl hdX8_joins ⟨Nat.le_of_ble_eq_true rfl, Nat.le_of_ble_eq_true rfl⟩ (Nat.le_of_ble_eq_true rfl) rfl ⟨Nat.le_of_ble_eq_true rfl, Nat.le_of_ble_eq_true rfl⟩ rfl rfl dX8_lawErrors_141 (fun s58 hp => ?_)
          have hp := hp.symm
          subst hp
          try dsimp only at h
          refine r_aload G 1 rfl dX8_lawErrors_144 ?_
          refine r_aload G 3 rfl dX8_lawErrors_146 ?_
          refine r_iconst G (v := 2) (by decide) dX8_lawErrors_148 ?_
          refine r_aload_n G 0 rfl rfl dX8_lawErrors_149 ?_
          refine r_get G (C := RX8) (T := TX8) (N := 19) kX8_lawErrors_X8 67 (mw_MO bd κ _) rfl 18 (by decide) mX8_lawErrors_f56 rfl rfl dX8_lawErrors_150 ?_
          obtain ⟨o59, e59, h⟩ := ob h
          refine r_callSv G [.ref (bd p0.toNatClampNeg), .ref (bd p2.toNatClampNeg), .int 2, .ref (bd 66)] (qX8_joins hE p0.toNatClampNeg (by have := vin_lt g50; omega) p2.toNatClampNeg (by have := vin_lt g52; omega) (2 : Int32) 66 (by decide) _ e59) gX8_lawErrors_X8_joins rfl hdX8_joins ⟨Nat.le_of_ble_eq_true rfl, Nat.le_of_ble_eq_true rfl⟩ (Nat.le_of_ble_eq_true rfl) rfl ⟨Nat.le_of_ble_eq_true rfl, Nat.le_of_ble_eq_true rfl⟩ rfl rfl dX8_lawErrors_153 (fun s59 hp => ?_)
          have hp := hp.symm
          subst hp
          try dsimp only at h
          refine r_aload_n G 0 rfl rfl dX8_lawErrors_156 ?_
          refine r_get G (C := RX8) (T := TX8) (N := 19) kX8_lawErrors_X8 67 (mw_MO bd κ _) rfl 17 (by decide) mX8_lawErrors_f53 rfl rfl dX8_lawErrors_157 ?_
          refine r_aload_n G 0 rfl rfl dX8_lawErrors_160 ?_
          refine r_get G (C := RX8) (T := TX8) (N := 19) kX8_lawErrors_X8 67 (mw_MO bd κ _) rfl 18 (by decide) mX8_lawErrors_f56 rfl rfl dX8_lawErrors_161 ?_
          refine r_iconst G (v := 1) (by decide) dX8_lawErrors_164 ?_
          refine r_aload_n G 0 rfl rfl dX8_lawErrors_165 ?_
          refine r_get G (C := RX8) (T := TX8) (N := 19) kX8_lawErrors_X8 67 (mw_MO bd κ _) rfl 17 (by decide) mX8_lawErrors_f53 rfl rfl dX8_lawErrors_166 ?_
          obtain ⟨o60, e60, h⟩ := ob h
          refine r_callSv G [.ref (bd 65), .ref (bd 66), .int 1, .ref (bd 65)] (qX8_joins hE 65 (by decide) 66 (by decide) (1 : Int32) 65 (by decide) _ e60) gX8_lawErrors_X8_joins rfl hdX8_joins ⟨Nat.le_of_ble_eq_true rfl, Nat.le_of_ble_eq_true rfl⟩ (Nat.le_of_ble_eq_true rfl) rfl ⟨Nat.le_of_ble_eq_true rfl, Nat.le_of_ble_eq_true rfl⟩ rfl rfl dX8_lawErrors_169 (fun s60 hp => ?_)
          have hp := hp.symm
          subst hp
          try dsimp only at h
          refine r_iload G 4 rfl dX8_lawErrors_172 ?_
          refine r_aload_n G 0 rfl rfl dX8_lawErrors_174 ?_
          obtain ⟨o61, e61, h⟩ := ob h
          refine r_callVi G [] (qX8_others hE _ e61) ⟨67, 8, _, _, rfl, (mw_MO bd κ _), rfl⟩ gX8_lawErrors_X8_others rfl hdX8_others ⟨Nat.le_of_ble_eq_true rfl, Nat.le_of_ble_eq_true rfl⟩ (Nat.le_of_ble_eq_true rfl) rfl ⟨Nat.le_of_ble_eq_true rfl, Nat.le_of_ble_eq_true rfl⟩ rfl rfl dX8_lawErrors_175 (fun r61 s61 hp hn61 => ?_)
          subst hp
          try dsimp only at h
          refine r_iadd G dX8_lawErrors_178 ?_
          refine r_aload_n G 0 rfl rfl dX8_lawErrors_179 ?_
          refine r_aload G 1 rfl dX8_lawErrors_180 ?_
          refine r_aload G 2 rfl dX8_lawErrors_182 ?_
          obtain ⟨o62, e62, h⟩ := ob h
          refine r_callVi G [.ref (bd p0.toNatClampNeg), .ref (bd p1.toNatClampNeg)] (qX8_within hE p0.toNatClampNeg (by have := vin_lt g50; omega) p1.toNatClampNeg (by have := vin_lt g51; omega) _ e62) ⟨67, 8, _, _, rfl, (mw_MO bd κ _), rfl⟩ gX8_lawErrors_X8_within rfl hdX8_within ⟨Nat.le_of_ble_eq_true rfl, Nat.le_of_ble_eq_true rfl⟩ (Nat.le_of_ble_eq_true rfl) rfl ⟨Nat.le_of_ble_eq_true rfl, Nat.le_of_ble_eq_true rfl⟩ rfl rfl dX8_lawErrors_184 (fun r62 s62 hp hn62 => ?_)
          subst hp
          try dsimp only at h
          refine r_iadd G dX8_lawErrors_187 ?_
          refine r_aload_n G 0 rfl rfl dX8_lawErrors_188 ?_
          refine r_aload G 1 rfl dX8_lawErrors_189 ?_
          refine r_aload G 2 rfl dX8_lawErrors_191 ?_
          refine r_aload G 3 rfl dX8_lawErrors_193 ?_
          obtain ⟨o63, e63, h⟩ := ob h
          refine r_callVi G [.ref (bd p0.toNatClampNeg), .ref (bd p1.toNatClampNeg), .ref (bd p2.toNatClampNeg)] (qX8_sizes hE p0.toNatClampNeg (by have := vin_lt g50; omega) p1.toNatClampNeg (by have := vin_lt g51; omega) p2.toNatClampNeg (by have := vin_lt g52; omega) _ e63) ⟨67, 8, _, _, rfl, (mw_MO bd κ _), rfl⟩ gX8_lawErrors_X8_sizes rfl hdX8_sizes ⟨Nat.le_of_ble_eq_true rfl, Nat.le_of_ble_eq_true rfl⟩ (Nat.le_of_ble_eq_true rfl) rfl ⟨Nat.le_of_ble_eq_true rfl, Nat.le_of_ble_eq_true rfl⟩ rfl rfl dX8_lawErrors_195 (fun r63 s63 hp hn63 => ?_)
          subst hp
          try dsimp only at h
          refine r_iadd G dX8_lawErrors_198 ?_
          exact hret _ _ _ _ _ _ dX8_lawErrors_199 (Option.some.inj h).symm rfl (Nat.le_of_ble_eq_true rfl) (Nat.le_of_ble_eq_true rfl)
        · rw [if_pos c] at h
          refine r_iconst G (v := 0) (by decide) dX8_lawErrors_34 ?_
          exact hret _ _ _ _ _ _ dX8_lawErrors_35 (Option.some.inj h).symm rfl (Nat.le_of_ble_eq_true rfl) (Nat.le_of_ble_eq_true rfl)
