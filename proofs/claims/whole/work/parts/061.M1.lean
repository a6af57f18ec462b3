abbrev rmX8_thrown : Room := { frames := 0, cells := 0, slots := 0, locals := 0 }
set_option maxRecDepth 20000 in
theorem kX8_thrown_X8 : ∀ w ∈ u_ws RX8 TX8 19, w ∈ wsX8_thrown := by decide +kernel
set_option maxRecDepth 20000 in
theorem mX8_thrown_f3 : Cond.fieldLink RX8 3 "SetCouncilModel" "thrown" "I" ∈ wsX8_thrown := by decide +kernel
set_option maxHeartbeats 4000000 in
set_option maxRecDepth 100000 in
theorem qX8_thrown {E : evT} {l : Launch} {D : va_G} {bd : Nat → Nat} {κ : Nat → ClassId} (hE : EvOk E) (s : mS) : Ci l yX8_thrown wsX8_thrown rmX8_thrown (mW bd κ) E D (tyA κ) .int [.ref (bd 67)] s (fun r s2 => r = fX8_thrown s ∧ s2 = s) := by
  obtain ⟨o, h⟩ : ∃ o, fX8_thrown s = o := ⟨_, rfl⟩
  rw [h]
  rw [fX8_thrown] at h
  refine s_i (cc := cX8_thrown) (nL := 1) (own := RX8) hE (mW_WA bd κ) (plainFor_of_name (by decide)) rfl rfl (Nat.le_of_ble_eq_true rfl) (fun Γ G hret => ?_)
  refine r_aload_n G 0 rfl rfl dX8_thrown_0 ?_
  refine r_get G (C := RX8) (T := TX8) (N := 19) kX8_thrown_X8 67 (mw_MO bd κ _) rfl 0 (by decide) mX8_thrown_f3 rfl rfl dX8_thrown_1 ?_
  exact hret _ _ _ _ _ _ dX8_thrown_4 ⟨h, rfl⟩ rfl (Nat.le_of_ble_eq_true rfl) (Nat.le_of_ble_eq_true rfl)
abbrev rmX8_in : Room := { frames := 0, cells := 0, slots := 0, locals := 0 }
set_option maxHeartbeats 4000000 in
set_option maxRecDepth 100000 in
theorem qX8_in {E : evT} {l : Launch} {D : va_G} {bd : Nat → Nat} {κ : Nat → ClassId} (hE : EvOk E) (p0 : Int32) (p1 : Int32) (p2 : Int32) (s : mS) : Ci l yX8_in wsX8_in rmX8_in (mW bd κ) E D (tyA κ) .boolean [.int p0, .int p1, .int p2] s (fun r s2 => r = fX8_in p0 p1 p2 s ∧ s2 = s) := by
  obtain ⟨o, h⟩ : ∃ o, fX8_in p0 p1 p2 s = o := ⟨_, rfl⟩
  rw [h]
  rw [fX8_in] at h
  refine s_i (cc := cX8_in) (nL := 3) (own := RX8) hE (mW_WA bd κ) (plainFor_of_name (by decide)) rfl rfl (Nat.le_of_ble_eq_true rfl) (fun Γ G hret => ?_)
  refine r_iload_n G 0 rfl rfl dX8_in_0 ?_
  refine r_iload_n G 1 rfl rfl dX8_in_1 ?_
  refine r_icmp_lt G (tgt := 14) dX8_in_2 (by decide) (fun c => ?_) (fun c => ?_)
  · rw [if_pos c] at h
    refine r_iconst G (v := 0) (by decide) dX8_in_14 ?_
    exact hret _ _ _ _ _ _ dX8_in_15 ⟨h, rfl⟩ rfl (Nat.le_of_ble_eq_true rfl) (Nat.le_of_ble_eq_true rfl)
  · rw [if_neg c] at h
    refine r_iload_n G 0 rfl rfl dX8_in_5 ?_
    refine r_iload_n G 2 rfl rfl dX8_in_6 ?_
    refine r_icmp_gt G (tgt := 14) dX8_in_7 (by decide) (fun c => ?_) (fun c => ?_)
    · rw [if_pos c] at h
      refine r_iconst G (v := 0) (by decide) dX8_in_14 ?_
      exact hret _ _ _ _ _ _ dX8_in_15 ⟨h, rfl⟩ rfl (Nat.le_of_ble_eq_true rfl) (Nat.le_of_ble_eq_true rfl)
    · rw [if_neg c] at h
      refine r_iconst G (v := 1) (by decide) dX8_in_10 ?_
      refine r_goto G (tgt := 15) dX8_in_11 (by decide) ?_
      exact hret _ _ _ _ _ _ dX8_in_15 ⟨h, rfl⟩ rfl (Nat.le_of_ble_eq_true rfl) (Nat.le_of_ble_eq_true rfl)
abbrev rmX8_passes : Room := { frames := 0, cells := 0, slots := 0, locals := 0 }
set_option maxRecDepth 20000 in
theorem kX8_passes_X8 : ∀ w ∈ u_ws RX8 TX8 19, w ∈ wsX8_passes := by decide +kernel
set_option maxRecDepth 20000 in
theorem mX8_passes_f3 : Cond.fieldLink RX8 3 "SetCouncilModel" "thrown" "I" ∈ wsX8_passes := by decide +kernel
set_option maxHeartbeats 4000000 in
set_option maxRecDepth 100000 in
theorem qX8_passes {E : evT} {l : Launch} {D : va_G} {bd : Nat → Nat} {κ : Nat → ClassId} (hE : EvOk E) (p0 : Int32) (p1 : Int32) (s : mS) {o : (Int32 × mS)} (h : fX8_passes p0 p1 s = some o) : Ci l yX8_passes wsX8_passes rmX8_passes (mW bd κ) E D (tyA κ) .boolean [.ref (bd 67), .int p0, .int p1] s (fun r s2 => o = (r, s2)) := by
  rw [fX8_passes] at h
  refine s_i (cc := cX8_passes) (nL := 3) (own := RX8) hE (mW_WA bd κ) (plainFor_of_name (by decide)) rfl rfl (Nat.le_of_ble_eq_true rfl) (fun Γ G hret => ?_)
  refine r_aload_n G 0 rfl rfl dX8_passes_0 ?_
  refine r_iload_n G 1 rfl rfl dX8_passes_1 ?_
  refine r_if_ne G (tgt := 9) dX8_passes_2 (by decide) (fun c => ?_) (fun c => ?_)
  · rw [if_neg c] at h
    refine r_iload_n G 2 rfl rfl dX8_passes_9 ?_
    refine r_if_ne G (tgt := 17) dX8_passes_10 (by decide) (fun c => ?_) (fun c => ?_)
    · rw [if_neg c] at h
      refine r_iconst G (v := 0) (by decide) dX8_passes_17 ?_
      refine r_put G (C := RX8) (T := TX8) (N := 19) kX8_passes_X8 tyX8 tyX8_ok nmX8 67 (mw_MO bd κ _) rfl 0 (by decide) mX8_passes_f3 rfl rfl (tyX8_ok 0 (by decide)) rfl rfl (Nat.le_of_ble_eq_true rfl) (mu_thrown bd κ _ _) dX8_passes_18 ?_
      refine r_aload_n G 0 rfl rfl dX8_passes_21 ?_
      refine r_get G (C := RX8) (T := TX8) (N := 19) kX8_passes_X8 67 (mw_MO bd κ _) rfl 0 (by decide) mX8_passes_f3 rfl rfl dX8_passes_22 ?_
      refine r_if_ne G (tgt := 32) dX8_passes_25 (by decide) (fun c => ?_) (fun c => ?_)
      · rw [if_neg c] at h
        refine r_iconst G (v := 0) (by decide) dX8_passes_32 ?_
        exact hret _ _ _ _ _ _ dX8_passes_33 (Option.some.inj h).symm rfl (Nat.le_of_ble_eq_true rfl) (Nat.le_of_ble_eq_true rfl)
      · rw [if_pos c] at h
        refine r_iconst G (v := 1) (by decide) dX8_passes_28 ?_
        refine r_goto G (tgt := 33) dX8_passes_29 (by decide) ?_
        exact hret _ _ _ _ _ _ dX8_passes_33 (Option.some.inj h).symm rfl (Nat.le_of_ble_eq_true rfl) (Nat.le_of_ble_eq_true rfl)
    · rw [if_pos c] at h
      refine r_iconst G (v := 2) (by decide) dX8_passes_13 ?_
      refine r_goto G (tgt := 18) dX8_passes_14 (by decide) ?_
      refine r_put G (C := RX8) (T := TX8) (N := 19) kX8_passes_X8 tyX8 tyX8_ok nmX8 67 (mw_MO bd κ _) rfl 0 (by decide) mX8_passes_f3 rfl rfl (tyX8_ok 0 (by decide)) rfl rfl (Nat.le_of_ble_eq_true rfl) (mu_thrown bd κ _ _) dX8_passes_18 ?_
      refine r_aload_n G 0 rfl rfl dX8_passes_21 ?_
      refine r_get G (C := RX8) (T := TX8) (N := 19) kX8_passes_X8 67 (mw_MO bd κ _) rfl 0 (by decide) mX8_passes_f3 rfl rfl dX8_passes_22 ?_
      refine r_if_ne G (tgt := 32) dX8_passes_25 (by decide) (fun c => ?_) (fun c => ?_)
      · rw [if_neg c] at h
        refine r_iconst G (v := 0) (by decide) dX8_passes_32 ?_
        exact hret _ _ _ _ _ _ dX8_passes_33 (Option.some.inj h).symm rfl (Nat.le_of_ble_eq_true rfl) (Nat.le_of_ble_eq_true rfl)
      · rw [if_pos c] at h
        refine r_iconst G (v := 1) (by decide) dX8_passes_28 ?_
        refine r_goto G (tgt := 33) dX8_passes_29 (by decide) ?_
        exact hret _ _ _ _ _ _ dX8_passes_33 (Option.some.inj h).symm rfl (Nat.le_of_ble_eq_true rfl) (Nat.le_of_ble_eq_true rfl)
  · rw [if_pos c] at h
    refine r_iconst G (v := 1) (by decide) dX8_passes_5 ?_
    refine r_goto G (tgt := 18) dX8_passes_6 (by decide) ?_
    refine r_put G (C := RX8) (T := TX8) (N := 19) kX8_passes_X8 tyX8 tyX8_ok nmX8 67 (mw_MO bd κ _) rfl 0 (by decide) mX8_passes_f3 rfl rfl (tyX8_ok 0 (by decide)) rfl rfl (Nat.le_of_ble_eq_true rfl) (mu_thrown bd κ _ _) dX8_passes_18 ?_
    refine r_aload_n G 0 rfl rfl dX8_passes_21 ?_
    refine r_get G (C := RX8) (T := TX8) (N := 19) kX8_passes_X8 67 (mw_MO bd κ _) rfl 0 (by decide) mX8_passes_f3 rfl rfl dX8_passes_22 ?_
    refine r_if_ne G (tgt := 32) dX8_passes_25 (by decide) (fun c => ?_) (fun c => ?_)
    · rw [if_neg c] at h
      refine r_iconst G (v := 0) (by decide) dX8_passes_32 ?_
      exact hret _ _ _ _ _ _ dX8_passes_33 (Option.some.inj h).symm rfl (Nat.le_of_ble_eq_true rfl) (Nat.le_of_ble_eq_true rfl)
    · rw [if_pos c] at h
      refine r_iconst G (v := 1) (by decide) dX8_passes_28 ?_
      refine r_goto G (tgt := 33) dX8_passes_29 (by decide) ?_
      exact hret _ _ _ _ _ _ dX8_passes_33 (Option.some.inj h).symm rfl (Nat.le_of_ble_eq_true rfl) (Nat.le_of_ble_eq_true rfl)
abbrev rmX8_isSet : Room := { frames := 1, cells := 0, slots := 0, locals := 22 }
theorem hdX8_in : yX8_in.cls ≠ "java/lang/invoke/MethodHandle" ∧ yX8_in.cls ≠ "java/lang/invoke/VarHandle" ∧ (parseMethodDescriptor yX8_in.desc).map (fun d => d.parameters.length) = some 3 := by decide +kernel
set_option maxHeartbeats 4000000 in
set_option maxRecDepth 100000 in
theorem qX8_isSet {E : evT} {l : Launch} {D : va_G} {bd : Nat → Nat} {κ : Nat → ClassId} (hE : EvOk E) (p0 : Int32) (s : mS) : Ci l yX8_isSet wsX8_isSet rmX8_isSet (mW bd κ) E D (tyA κ) .boolean [.int p0] s (fun r s2 => r = fX8_isSet p0 s ∧ s2 = s) := by
  obtain ⟨o, h⟩ : ∃ o, fX8_isSet p0 s = o := ⟨_, rfl⟩
  rw [h]
  rw [fX8_isSet] at h
  refine s_i (cc := cX8_isSet) (nL := 1) (own := RX8) hE (mW_WA bd κ) (plainFor_of_name (by decide)) rfl rfl (Nat.le_of_ble_eq_true rfl) (fun Γ G hret => ?_)
  refine r_iload_n G 0 rfl rfl dX8_isSet_0 ?_
  refine r_iconst G (v := 0) (by decide) dX8_isSet_1 ?_
  refine r_bipush G (v := 7) (by decide) dX8_isSet_2 ?_
  refine r_callSi G [.int p0, .int 0, .int 7] (qX8_in hE p0 (0 : Int32) (7 : Int32) _) gX8_isSet_X8_in rfl hdX8_in ⟨Nat.le_of_ble_eq_true rfl, Nat.le_of_ble_eq_true rfl⟩ (Nat.le_of_ble_eq_true rfl) rfl ⟨Nat.le_of_ble_eq_true rfl, Nat.le_of_ble_eq_true rfl⟩ rfl rfl dX8_isSet_4 (fun r1 s1 hp hn1 => ?_)
  obtain ⟨rfl, hs⟩ := hp
  have hs := hs.symm
  subst hs
  exact hret _ _ _ _ _ _ dX8_isSet_7 ⟨h, rfl⟩ hn1 (Nat.le_of_ble_eq_true rfl) (Nat.le_of_ble_eq_true rfl)
abbrev rmX8_isMember : Room := { frames := 1, cells := 0, slots := 0, locals := 22 }
set_option maxHeartbeats 4000000 in
set_option maxRecDepth 100000 in
theorem qX8_isMember {E : evT} {l : Launch} {D : va_G} {bd : Nat → Nat} {κ : Nat → ClassId} (hE : EvOk E) (p0 : Int32) (s : mS) : Ci l yX8_isMember wsX8_isMember rmX8_isMember (mW bd κ) E D (tyA κ) .boolean [.int p0] s (fun r s2 => r = fX8_isMember p0 s ∧ s2 = s) := by
  obtain ⟨o, h⟩ : ∃ o, fX8_isMember p0 s = o := ⟨_, rfl⟩
  rw [h]
  rw [fX8_isMember] at h
  refine s_i (cc := cX8_isMember) (nL := 1) (own := RX8) hE (mW_WA bd κ) (plainFor_of_name (by decide)) rfl rfl (Nat.le_of_ble_eq_true rfl) (fun Γ G hret => ?_)
  refine r_iload_n G 0 rfl rfl dX8_isMember_0 ?_
  refine r_bipush G (v := 100) (by decide) dX8_isMember_1 ?_
  refine r_icmp_eq G (tgt := 17) dX8_isMember_3 (by decide) (fun c => ?_) (fun c => ?_)
  · rw [if_pos c] at h
    refine r_iconst G (v := 1) (by decide) dX8_isMember_17 ?_
    refine r_goto G (tgt := 22) dX8_isMember_18 (by decide) ?_
    exact hret _ _ _ _ _ _ dX8_isMember_22 ⟨h, rfl⟩ rfl (Nat.le_of_ble_eq_true rfl) (Nat.le_of_ble_eq_true rfl)
  · rw [if_neg c] at h
    refine r_iload_n G 0 rfl rfl dX8_isMember_6 ?_
    refine r_bipush G (v := (-50)) (by decide) dX8_isMember_7 ?_
    refine r_bipush G (v := 50) (by decide) dX8_isMember_9 ?_
    refine r_callSi G [.int p0, .int (-50), .int 50] (qX8_in hE p0 (-50 : Int32) (50 : Int32) _) gX8_isMember_X8_in rfl hdX8_in ⟨Nat.le_of_ble_eq_true rfl, Nat.le_of_ble_eq_true rfl⟩ (Nat.le_of_ble_eq_true rfl) rfl ⟨Nat.le_of_ble_eq_true rfl, Nat.le_of_ble_eq_true rfl⟩ rfl rfl dX8_isMember_11 (fun r1 s1 hp hn1 => ?_)
    obtain ⟨rfl, hs⟩ := hp
    have hs := hs.symm
    subst hs
    refine r_if_eq G (tgt := 21) dX8_isMember_14 (by decide) (fun c => ?_) (fun c => ?_)
    · rw [if_pos c] at h
      refine r_iconst G (v := 0) (by decide) dX8_isMember_21 ?_
      exact hret _ _ _ _ _ _ dX8_isMember_22 ⟨h, rfl⟩ rfl (Nat.le_of_ble_eq_true rfl) (Nat.le_of_ble_eq_true rfl)
    · rw [if_neg c] at h
      refine r_iconst G (v := 1) (by decide) dX8_isMember_17 ?_
      refine r_goto G (tgt := 22) dX8_isMember_18 (by decide) ?_
      exact hret _ _ _ _ _ _ dX8_isMember_22 ⟨h, rfl⟩ rfl (Nat.le_of_ble_eq_true rfl) (Nat.le_of_ble_eq_true rfl)
abbrev rmX8_placeOfMember : Room := { frames := 0, cells := 0, slots := 0, locals := 0 }
set_option maxHeartbeats 4000000 in
set_option maxRecDepth 100000 in
theorem qX8_placeOfMember {E : evT} {l : Launch} {D : va_G} {bd : Nat → Nat} {κ : Nat → ClassId} (hE : EvOk E) (p0 : Int32) (s : mS) : Ci l yX8_placeOfMember wsX8_placeOfMember rmX8_placeOfMember (mW bd κ) E D (tyA κ) .int [.int p0] s (fun r s2 => r = fX8_placeOfMember p0 s ∧ s2 = s) := by
  obtain ⟨o, h⟩ : ∃ o, fX8_placeOfMember p0 s = o := ⟨_, rfl⟩
  rw [h]
  rw [fX8_placeOfMember] at h
  refine s_i (cc := cX8_placeOfMember) (nL := 1) (own := RX8) hE (mW_WA bd κ) (plainFor_of_name (by decide)) rfl rfl (Nat.le_of_ble_eq_true rfl) (fun Γ G hret => ?_)
  refine r_iload_n G 0 rfl rfl dX8_placeOfMember_0 ?_
  refine r_bipush G (v := 100) (by decide) dX8_placeOfMember_1 ?_
  refine r_icmp_ne G (tgt := 10) dX8_placeOfMember_3 (by decide) (fun c => ?_) (fun c => ?_)
  · rw [if_neg c] at h
    refine r_iload_n G 0 rfl rfl dX8_placeOfMember_10 ?_
    refine r_bipush G (v := 50) (by decide) dX8_placeOfMember_11 ?_
    refine r_iadd G dX8_placeOfMember_13 ?_
    refine r_iconst G (v := 1) (by decide) dX8_placeOfMember_14 ?_
    refine r_iadd G dX8_placeOfMember_15 ?_
    exact hret _ _ _ _ _ _ dX8_placeOfMember_16 ⟨h, rfl⟩ rfl (Nat.le_of_ble_eq_true rfl) (Nat.le_of_ble_eq_true rfl)
  · rw [if_pos c] at h
    refine r_iconst G (v := 0) (by decide) dX8_placeOfMember_6 ?_
    refine r_goto G (tgt := 16) dX8_placeOfMember_7 (by decide) ?_
    exact hret _ _ _ _ _ _ dX8_placeOfMember_16 ⟨h, rfl⟩ rfl (Nat.le_of_ble_eq_true rfl) (Nat.le_of_ble_eq_true rfl)
abbrev rmX8_memberOf : Room := { frames := 0, cells := 0, slots := 0, locals := 0 }
set_option maxHeartbeats 4000000 in
set_option maxRecDepth 100000 in
theorem qX8_memberOf {E : evT} {l : Launch} {D : va_G} {bd : Nat → Nat} {κ : Nat → ClassId} (hE : EvOk E) (p0 : Int32) (s : mS) : Ci l yX8_memberOf wsX8_memberOf rmX8_memberOf (mW bd κ) E D (tyA κ) .int [.int p0] s (fun r s2 => r = fX8_memberOf p0 s ∧ s2 = s) := by
  obtain ⟨o, h⟩ : ∃ o, fX8_memberOf p0 s = o := ⟨_, rfl⟩
  rw [h]
  rw [fX8_memberOf] at h
  refine s_i (cc := cX8_memberOf) (nL := 1) (own := RX8) hE (mW_WA bd κ) (plainFor_of_name (by decide)) rfl rfl (Nat.le_of_ble_eq_true rfl) (fun Γ G hret => ?_)
  refine r_iload_n G 0 rfl rfl dX8_memberOf_0 ?_
  refine r_if_ne G (tgt := 9) dX8_memberOf_1 (by decide) (fun c => ?_) (fun c => ?_)
  · rw [if_neg c] at h
    refine r_iload_n G 0 rfl rfl dX8_memberOf_9 ?_
    refine r_bipush G (v := 50) (by decide) dX8_memberOf_10 ?_
    refine r_isub G dX8_memberOf_12 ?_
    refine r_iconst G (v := 1) (by decide) dX8_memberOf_13 ?_
    refine r_isub G dX8_memberOf_14 ?_
    exact hret _ _ _ _ _ _ dX8_memberOf_15 ⟨h, rfl⟩ rfl (Nat.le_of_ble_eq_true rfl) (Nat.le_of_ble_eq_true rfl)
  · rw [if_pos c] at h
    refine r_bipush G (v := 100) (by decide) dX8_memberOf_4 ?_
    refine r_goto G (tgt := 15) dX8_memberOf_6 (by decide) ?_
    exact hret _ _ _ _ _ _ dX8_memberOf_15 ⟨h, rfl⟩ rfl (Nat.le_of_ble_eq_true rfl) (Nat.le_of_ble_eq_true rfl)
abbrev rmX8_copies : Room := { frames := 0, cells := 0, slots := 0, locals := 0 }
set_option maxHeartbeats 4000000 in
set_option maxRecDepth 100000 in
theorem wX8_copies_L2 {E : evT} {l : Launch} {D : va_G} {bd : Nat → Nat} {κ : Nat → ClassId} (hE : EvOk E) {Γ : cxT} (G : Cx (mW bd κ) D (tyA κ) E l Γ cX8_copies RX8 wsX8_copies 3 rmX8_copies) (z0 : Nat) (hz0 : z0 < 67) (z1 : Nat) (hz1 : z1 < 67) {o : (mS)} (hret : ∀ (st2 : mS) (cells slots pc : Nat) (lv : List (Nat × Value)), decode cX8_copies pc = .ok (.return_, 1) → o = st2 → cells ≤ rmX8_copies.cells → slots ≤ rmX8_copies.slots → V (mW bd κ) D Γ st2 cells slots pc lv []) : ∀ (fuel : Nat) (x2 : Int32) (s : mS), fX8_copies_L2 z0 z1 fuel x2 s = some o → V (mW bd κ) D Γ s 0 0 2 [(0, .ref (bd z0)), (1, .ref (bd z1)), (2, .int x2)] [] := by
  intro fuel
  induction fuel with
  | zero =>
    intro _ _ h
    have h : none = some o := h
    cases h
  | succ fuel ih =>
    intro x2 s h
    rw [fX8_copies_L2] at h
    refine r_iload_n G 2 rfl rfl dX8_copies_2 ?_
    refine r_bipush G (v := 102) (by decide) dX8_copies_3 ?_
    refine r_icmp_ge G (tgt := 20) dX8_copies_5 (by decide) (fun c => ?_) (fun c => ?_)
    · rw [if_pos c] at h
      exact hret _ _ _ _ _ dX8_copies_20 (Option.some.inj h).symm (Nat.le_of_ble_eq_true rfl) (Nat.le_of_ble_eq_true rfl)
    · rw [if_neg c] at h
      refine r_aload_n G 1 rfl rfl dX8_copies_8 ?_
      refine r_iload_n G 2 rfl rfl dX8_copies_9 ?_
      refine r_aload_n G 0 rfl rfl dX8_copies_10 ?_
      refine r_iload_n G 2 rfl rfl dX8_copies_11 ?_
      obtain ⟨g1, h⟩ := og h
      refine r_zald G z0 4 (mw_ROW bd κ _ hz0) rfl (vin_in g1) dX8_copies_12 ?_
      obtain ⟨g2, h⟩ := og h
      refine r_zast G z1 4 (mw_ROW bd κ _ hz1) rfl (vin_in g2) (mu_ROW bd κ _ hz1 _ _) dX8_copies_13 ?_
      refine r_iinc G (j := 2) rfl (v := x2 + 1) (lv' := [(0, .ref (bd z0)), (1, .ref (bd z1)), (2, .int (x2 + 1))]) rfl [1, 2, 0] rfl (by decide) dX8_copies_14 ?_
      refine r_goto G (tgt := 2) dX8_copies_17 (by decide) ?_
      exact ih _ _ h
set_option maxHeartbeats 4000000 in
set_option maxRecDepth 100000 in
theorem qX8_copies {E : evT} {l : Launch} {D : va_G} {bd : Nat → Nat} {κ : Nat → ClassId} (hE : EvOk E) (p0 : Nat) (hp0 : p0 < 67) (p1 : Nat) (hp1 : p1 < 67) (s : mS) {o : (mS)} (h : fX8_copies p0 p1 s = some o) : Cv l yX8_copies wsX8_copies rmX8_copies (mW bd κ) E D (tyA κ)  [.ref (bd p0), .ref (bd p1)] s (fun s2 => o = s2) := by
  rw [fX8_copies] at h
  refine s_v (cc := cX8_copies) (nL := 3) (own := RX8) hE (mW_WA bd κ) (by decide) rfl rfl (Nat.le_of_ble_eq_true rfl) (fun Γ G hret => ?_)
  refine r_iconst G (v := 0) (by decide) dX8_copies_0 ?_
  refine r_istore_n G (lv' := [(0, .ref (bd p0)), (1, .ref (bd p1)), (2, .int 0)]) [1, 2, 0] rfl rfl (by decide) dX8_copies_1 ?_
  refine wX8_copies_L2 hE G _ hp0 _ hp1 hret 1100 _ _ h
abbrev rmX8_sizeOf : Room := { frames := 0, cells := 0, slots := 0, locals := 0 }
set_option maxHeartbeats 4000000 in
set_option maxRecDepth 100000 in
theorem wX8_sizeOf_L4 {E : evT} {l : Launch} {D : va_G} {bd : Nat → Nat} {κ : Nat → ClassId} (hE : EvOk E) {Γ : cxT} (G : Cx (mW bd κ) D (tyA κ) E l Γ cX8_sizeOf RX8 wsX8_sizeOf 3 rmX8_sizeOf) (z0 : Nat) (hz0 : z0 < 67) {o : (Int32 × mS)} (hret : ∀ (st2 : mS) (v : Int32) (cells slots pc : Nat) (lv : List (Nat × Value)), decode cX8_sizeOf pc = .ok (.ireturn, 1) → o = (v, st2) → narrow .int (.int v) = .int v → cells ≤ rmX8_sizeOf.cells → slots ≤ rmX8_sizeOf.slots → V (mW bd κ) D Γ st2 cells slots pc lv [.int v]) : ∀ (fuel : Nat) (x1 : Int32) (x2 : Int32) (s : mS), fX8_sizeOf_L4 z0 fuel x1 x2 s = some o → V (mW bd κ) D Γ s 0 0 4 [(0, .ref (bd z0)), (1, .int x1), (2, .int x2)] [] := by
  intro fuel
  induction fuel with
  | zero =>
    intro _ _ _ h
    have h : none = some o := h
    cases h
  | succ fuel ih =>
    intro x1 x2 s h
    rw [fX8_sizeOf_L4] at h
    refine r_iload_n G 2 rfl rfl dX8_sizeOf_4 ?_
    refine r_bipush G (v := 102) (by decide) dX8_sizeOf_5 ?_
    refine r_icmp_ge G (tgt := 30) dX8_sizeOf_7 (by decide) (fun c => ?_) (fun c => ?_)
    · rw [if_pos c] at h
      refine r_iload_n G 1 rfl rfl dX8_sizeOf_30 ?_
      exact hret _ _ _ _ _ _ dX8_sizeOf_31 (Option.some.inj h).symm rfl (Nat.le_of_ble_eq_true rfl) (Nat.le_of_ble_eq_true rfl)
    · rw [if_neg c] at h
      refine r_iload_n G 1 rfl rfl dX8_sizeOf_10 ?_
      refine r_aload_n G 0 rfl rfl dX8_sizeOf_11 ?_
      refine r_iload_n G 2 rfl rfl dX8_sizeOf_12 ?_
      obtain ⟨g1, h⟩ := og h
      refine r_zald G z0 4 (mw_ROW bd κ _ hz0) rfl (vin_in g1) dX8_sizeOf_13 ?_
      refine r_if_eq G (tgt := 21) dX8_sizeOf_14 (by decide) (fun c => ?_) (fun c => ?_)
      · rw [if_pos c] at h
        refine r_iconst G (v := 0) (by decide) dX8_sizeOf_21 ?_
        refine r_iadd G dX8_sizeOf_22 ?_
        refine r_istore_n G (lv' := [(0, .ref (bd z0)), (1, .int (x1 + 0)), (2, .int x2)]) [1, 0, 2] rfl rfl (by decide) dX8_sizeOf_23 ?_
        refine r_iinc G (j := 2) rfl (v := x2 + 1) (lv' := [(0, .ref (bd z0)), (1, .int (x1 + 0)), (2, .int (x2 + 1))]) rfl [1, 2, 0] rfl (by decide) dX8_sizeOf_24 ?_
        refine r_goto G (tgt := 4) dX8_sizeOf_27 (by decide) ?_
        exact ih _ _ _ h
      · rw [if_neg c] at h
        refine r_iconst G (v := 1) (by decide) dX8_sizeOf_17 ?_
        refine r_goto G (tgt := 22) dX8_sizeOf_18 (by decide) ?_
        refine r_iadd G dX8_sizeOf_22 ?_
        refine r_istore_n G (lv' := [(0, .ref (bd z0)), (1, .int (x1 + 1)), (2, .int x2)]) [1, 0, 2] rfl rfl (by decide) dX8_sizeOf_23 ?_
        refine r_iinc G (j := 2) rfl (v := x2 + 1) (lv' := [(0, .ref (bd z0)), (1, .int (x1 + 1)), (2, .int (x2 + 1))]) rfl [1, 2, 0] rfl (by decide) dX8_sizeOf_24 ?_
        refine r_goto G (tgt := 4) dX8_sizeOf_27 (by decide) ?_
        exact ih _ _ _ h
set_option maxHeartbeats 4000000 in
set_option maxRecDepth 100000 in
theorem qX8_sizeOf {E : evT} {l : Launch} {D : va_G} {bd : Nat → Nat} {κ : Nat → ClassId} (hE : EvOk E) (p0 : Nat) (hp0 : p0 < 67) (s : mS) {o : (Int32 × mS)} (h : fX8_sizeOf p0 s = some o) : Ci l yX8_sizeOf wsX8_sizeOf rmX8_sizeOf (mW bd κ) E D (tyA κ) .int [.ref (bd p0)] s (fun r s2 => o = (r, s2)) := by
  rw [fX8_sizeOf] at h
  refine s_i (cc := cX8_sizeOf) (nL := 3) (own := RX8) hE (mW_WA bd κ) (plainFor_of_name (by decide)) rfl rfl (Nat.le_of_ble_eq_true rfl) (fun Γ G hret => ?_)
  refine r_iconst G (v := 0) (by decide) dX8_sizeOf_0 ?_
  refine r_istore_n G (lv' := [(0, .ref (bd p0)), (1, .int 0)]) [1, 0] rfl rfl (by decide) dX8_sizeOf_1 ?_
  refine r_iconst G (v := 0) (by decide) dX8_sizeOf_2 ?_
  refine r_istore_n G (lv' := [(0, .ref (bd p0)), (1, .int 0), (2, .int 0)]) [1, 2, 0] rfl rfl (by decide) dX8_sizeOf_3 ?_
  refine wX8_sizeOf_L4 hE G _ hp0 hret 1100 _ _ _ h
abbrev rmX8_sumOf : Room := { frames := 1, cells := 0, slots := 0, locals := 20 }
theorem hdX8_memberOf : yX8_memberOf.cls ≠ "java/lang/invoke/MethodHandle" ∧ yX8_memberOf.cls ≠ "java/lang/invoke/VarHandle" ∧ (parseMethodDescriptor yX8_memberOf.desc).map (fun d => d.parameters.length) = some 1 := by decide +kernel
set_option maxHeartbeats 4000000 in
set_option maxRecDepth 100000 in
theorem wX8_sumOf_L4 {E : evT} {l : Launch} {D : va_G} {bd : Nat → Nat} {κ : Nat → ClassId} (hE : EvOk E) {Γ : cxT} (G : Cx (mW bd κ) D (tyA κ) E l Γ cX8_sumOf RX8 wsX8_sumOf 3 rmX8_sumOf) (z0 : Nat) (hz0 : z0 < 67) {o : (Int32 × mS)} (hret : ∀ (st2 : mS) (v : Int32) (cells slots pc : Nat) (lv : List (Nat × Value)), decode cX8_sumOf pc = .ok (.ireturn, 1) → o = (v, st2) → narrow .int (.int v) = .int v → cells ≤ rmX8_sumOf.cells → slots ≤ rmX8_sumOf.slots → V (mW bd κ) D Γ st2 cells slots pc lv [.int v]) : ∀ (fuel : Nat) (x1 : Int32) (x2 : Int32) (s : mS), fX8_sumOf_L4 z0 fuel x1 x2 s = some o → V (mW bd κ) D Γ s 0 0 4 [(0, .ref (bd z0)), (1, .int x1), (2, .int x2)] [] := by
  intro fuel
  induction fuel with
  | zero =>
    intro _ _ _ h
    have h : none = some o := h
    cases h
  | succ fuel ih =>
    intro x1 x2 s h
    rw [fX8_sumOf_L4] at h
    refine r_iload_n G 2 rfl rfl dX8_sumOf_4 ?_
    refine r_bipush G (v := 102) (by decide) dX8_sumOf_5 ?_
    refine r_icmp_ge G (tgt := 33) dX8_sumOf_7 (by decide) (fun c => ?_) (fun c => ?_)
    · rw [if_pos c] at h
      refine r_iload_n G 1 rfl rfl dX8_sumOf_33 ?_
      exact hret _ _ _ _ _ _ dX8_sumOf_34 (Option.some.inj h).symm rfl (Nat.le_of_ble_eq_true rfl) (Nat.le_of_ble_eq_true rfl)
    · rw [if_neg c] at h
      refine r_iload_n G 1 rfl rfl dX8_sumOf_10 ?_
      refine r_aload_n G 0 rfl rfl dX8_sumOf_11 ?_
      refine r_iload_n G 2 rfl rfl dX8_sumOf_12 ?_
      obtain ⟨g1, h⟩ := og h
      refine r_zald G z0 4 (mw_ROW bd κ _ hz0) rfl (vin_in g1) dX8_sumOf_13 ?_
      refine r_if_eq G (tgt := 24) dX8_sumOf_14 (by decide) (fun c => ?_) (fun c => ?_)
      · rw [if_pos c] at h
        refine r_iconst G (v := 0) (by decide) dX8_sumOf_24 ?_
        refine r_iadd G dX8_sumOf_25 ?_
        refine r_istore_n G (lv' := [(0, .ref (bd z0)), (1, .int (x1 + 0)), (2, .int x2)]) [1, 0, 2] rfl rfl (by decide) dX8_sumOf_26 ?_
        refine r_iinc G (j := 2) rfl (v := x2 + 1) (lv' := [(0, .ref (bd z0)), (1, .int (x1 + 0)), (2, .int (x2 + 1))]) rfl [1, 2, 0] rfl (by decide) dX8_sumOf_27 ?_
        refine r_goto G (tgt := 4) dX8_sumOf_30 (by decide) ?_
        exact ih _ _ _ h
      · rw [if_neg c] at h
        refine r_iload_n G 2 rfl rfl dX8_sumOf_17 ?_
        refine r_callSi G [.int x2] (qX8_memberOf hE x2 _) gX8_sumOf_X8_memberOf rfl hdX8_memberOf ⟨Nat.le_of_ble_eq_true rfl, Nat.le_of_ble_eq_true rfl⟩ (Nat.le_of_ble_eq_true rfl) rfl ⟨Nat.le_of_ble_eq_true rfl, Nat.le_of_ble_eq_true rfl⟩ rfl rfl dX8_sumOf_18 (fun r2 s2 hp hn2 => ?_)
        obtain ⟨rfl, hs⟩ := hp
        have hs := hs.symm
        subst hs
        refine r_goto G (tgt := 25) dX8_sumOf_21 (by decide) ?_
        refine r_iadd G dX8_sumOf_25 ?_
        refine r_istore_n G (lv' := [(0, .ref (bd z0)), (1, .int (x1 + (fX8_memberOf x2 s))), (2, .int x2)]) [1, 0, 2] rfl rfl (by decide) dX8_sumOf_26 ?_
        refine r_iinc G (j := 2) rfl (v := x2 + 1) (lv' := [(0, .ref (bd z0)), (1, .int (x1 + (fX8_memberOf x2 s))), (2, .int (x2 + 1))]) rfl [1, 2, 0] rfl (by decide) dX8_sumOf_27 ?_
        refine r_goto G (tgt := 4) dX8_sumOf_30 (by decide) ?_
        exact ih _ _ _ h
set_option maxHeartbeats 4000000 in
set_option maxRecDepth 100000 in
theorem qX8_sumOf {E : evT} {l : Launch} {D : va_G} {bd : Nat → Nat} {κ : Nat → ClassId} (hE : EvOk E) (p0 : Nat) (hp0 : p0 < 67) (s : mS) {o : (Int32 × mS)} (h : fX8_sumOf p0 s = some o) : Ci l yX8_sumOf wsX8_sumOf rmX8_sumOf (mW bd κ) E D (tyA κ) .int [.ref (bd p0)] s (fun r s2 => o = (r, s2)) := by
  rw [fX8_sumOf] at h
  refine s_i (cc := cX8_sumOf) (nL := 3) (own := RX8) hE (mW_WA bd κ) (plainFor_of_name (by decide)) rfl rfl (Nat.le_of_ble_eq_true rfl) (fun Γ G hret => ?_)
  refine r_iconst G (v := 0) (by decide) dX8_sumOf_0 ?_
  refine r_istore_n G (lv' := [(0, .ref (bd p0)), (1, .int 0)]) [1, 0] rfl rfl (by decide) dX8_sumOf_1 ?_
  refine r_iconst G (v := 1) (by decide) dX8_sumOf_2 ?_
  refine r_istore_n G (lv' := [(0, .ref (bd p0)), (1, .int 0), (2, .int 1)]) [1, 2, 0] rfl rfl (by decide) dX8_sumOf_3 ?_
  refine wX8_sumOf_L4 hE G _ hp0 hret 1100 _ _ _ h
abbrev rmX8_firstOther : Room := { frames := 0, cells := 0, slots := 0, locals := 0 }
set_option maxHeartbeats 4000000 in
set_option maxRecDepth 100000 in
theorem wX8_firstOther_L2 {E : evT} {l : Launch} {D : va_G} {bd : Nat → Nat} {κ : Nat → ClassId} (hE : EvOk E) {Γ : cxT} (G : Cx (mW bd κ) D (tyA κ) E l Γ cX8_firstOther RX8 wsX8_firstOther 3 rmX8_firstOther) (z0 : Nat) (hz0 : z0 < 67) (z1 : Nat) (hz1 : z1 < 67) {o : (Int32 × mS)} (hret : ∀ (st2 : mS) (v : Int32) (cells slots pc : Nat) (lv : List (Nat × Value)), decode cX8_firstOther pc = .ok (.ireturn, 1) → o = (v, st2) → narrow .int (.int v) = .int v → cells ≤ rmX8_firstOther.cells → slots ≤ rmX8_firstOther.slots → V (mW bd κ) D Γ st2 cells slots pc lv [.int v]) : ∀ (fuel : Nat) (x2 : Int32) (s : mS), fX8_firstOther_L2 z0 z1 fuel x2 s = some o → V (mW bd κ) D Γ s 0 0 2 [(0, .ref (bd z0)), (1, .ref (bd z1)), (2, .int x2)] [] := by
  intro fuel
  induction fuel with
  | zero =>
    intro _ _ h
    have h : none = some o := h
    cases h
  | succ fuel ih =>
    intro x2 s h
    rw [fX8_firstOther_L2] at h
    refine r_iload_n G 2 rfl rfl dX8_firstOther_2 ?_
    refine r_bipush G (v := 102) (by decide) dX8_firstOther_3 ?_
    refine r_icmp_ge G (tgt := 25) dX8_firstOther_5 (by decide) (fun c => ?_) (fun c => ?_)
    · rw [if_pos c] at h
      refine r_iconst G (v := (-1)) (by decide) dX8_firstOther_25 ?_
      exact hret _ _ _ _ _ _ dX8_firstOther_26 (Option.some.inj h).symm rfl (Nat.le_of_ble_eq_true rfl) (Nat.le_of_ble_eq_true rfl)
    · rw [if_neg c] at h
      refine r_aload_n G 0 rfl rfl dX8_firstOther_8 ?_
      refine r_iload_n G 2 rfl rfl dX8_firstOther_9 ?_
      obtain ⟨g1, h⟩ := og h
      refine r_zald G z0 4 (mw_ROW bd κ _ hz0) rfl (vin_in g1) dX8_firstOther_10 ?_
      refine r_aload_n G 1 rfl rfl dX8_firstOther_11 ?_
      refine r_iload_n G 2 rfl rfl dX8_firstOther_12 ?_
      obtain ⟨g2, h⟩ := og h
      refine r_zald G z1 4 (mw_ROW bd κ _ hz1) rfl (vin_in g2) dX8_firstOther_13 ?_
      refine r_icmp_eq G (tgt := 19) dX8_firstOther_14 (by decide) (fun c => ?_) (fun c => ?_)
      · rw [if_pos c] at h
        refine r_iinc G (j := 2) rfl (v := x2 + 1) (lv' := [(0, .ref (bd z0)), (1, .ref (bd z1)), (2, .int (x2 + 1))]) rfl [1, 2, 0] rfl (by decide) dX8_firstOther_19 ?_
        refine r_goto G (tgt := 2) dX8_firstOther_22 (by decide) ?_
        exact ih _ _ h
      · rw [if_neg c] at h
        refine r_iload_n G 2 rfl rfl dX8_firstOther_17 ?_
        exact hret _ _ _ _ _ _ dX8_firstOther_18 (Option.some.inj h).symm rfl (Nat.le_of_ble_eq_true rfl) (Nat.le_of_ble_eq_true rfl)
set_option maxHeartbeats 4000000 in
set_option maxRecDepth 100000 in
theorem qX8_firstOther {E : evT} {l : Launch} {D : va_G} {bd : Nat → Nat} {κ : Nat → ClassId} (hE : EvOk E) (p0 : Nat) (hp0 : p0 < 67) (p1 : Nat) (hp1 : p1 < 67) (s : mS) {o : (Int32 × mS)} (h : fX8_firstOther p0 p1 s = some o) : Ci l yX8_firstOther wsX8_firstOther rmX8_firstOther (mW bd κ) E D (tyA κ) .int [.ref (bd p0), .ref (bd p1)] s (fun r s2 => o = (r, s2)) := by
  rw [fX8_firstOther] at h
  refine s_i (cc := cX8_firstOther) (nL := 3) (own := RX8) hE (mW_WA bd κ) (plainFor_of_name (by decide)) rfl rfl (Nat.le_of_ble_eq_true rfl) (fun Γ G hret => ?_)
  refine r_iconst G (v := 0) (by decide) dX8_firstOther_0 ?_
  refine r_istore_n G (lv' := [(0, .ref (bd p0)), (1, .ref (bd p1)), (2, .int 0)]) [1, 2, 0] rfl rfl (by decide) dX8_firstOther_1 ?_
  refine wX8_firstOther_L2 hE G _ hp0 _ hp1 hret 1100 _ _ h
abbrev rmX8_areSame : Room := { frames := 1, cells := 0, slots := 0, locals := 22 }
theorem hdX8_firstOther : yX8_firstOther.cls ≠ "java/lang/invoke/MethodHandle" ∧ yX8_firstOther.cls ≠ "java/lang/invoke/VarHandle" ∧ (parseMethodDescriptor yX8_firstOther.desc).map (fun d => d.parameters.length) = some 2 := by decide +kernel
set_option maxHeartbeats 4000000 in
set_option maxRecDepth 100000 in
theorem qX8_areSame {E : evT} {l : Launch} {D : va_G} {bd : Nat → Nat} {κ : Nat → ClassId} (hE : EvOk E) (p0 : Nat) (hp0 : p0 < 67) (p1 : Nat) (hp1 : p1 < 67) (s : mS) {o : (Int32 × mS)} (h : fX8_areSame p0 p1 s = some o) : Ci l yX8_areSame wsX8_areSame rmX8_areSame (mW bd κ) E D (tyA κ) .boolean [.ref (bd p0), .ref (bd p1)] s (fun r s2 => o = (r, s2)) := by
  rw [fX8_areSame] at h
  refine s_i (cc := cX8_areSame) (nL := 2) (own := RX8) hE (mW_WA bd κ) (plainFor_of_name (by decide)) rfl rfl (Nat.le_of_ble_eq_true rfl) (fun Γ G hret => ?_)
  refine r_aload_n G 0 rfl rfl dX8_areSame_0 ?_
  refine r_aload_n G 1 rfl rfl dX8_areSame_1 ?_
  obtain ⟨o1, e1, h⟩ := ob h
  refine r_callSi G [.ref (bd p0), .ref (bd p1)] (qX8_firstOther hE p0 hp0 p1 hp1 _ e1) gX8_areSame_X8_firstOther rfl hdX8_firstOther ⟨Nat.le_of_ble_eq_true rfl, Nat.le_of_ble_eq_true rfl⟩ (Nat.le_of_ble_eq_true rfl) rfl ⟨Nat.le_of_ble_eq_true rfl, Nat.le_of_ble_eq_true rfl⟩ rfl rfl dX8_areSame_2 (fun r1 s1 hp hn1 => ?_)
  subst hp
  try dsimp only at h
  refine r_iconst G (v := (-1)) (by decide) dX8_areSame_5 ?_
  refine r_icmp_ne G (tgt := 13) dX8_areSame_6 (by decide) (fun c => ?_) (fun c => ?_)
  · rw [if_neg c] at h
    refine r_iconst G (v := 0) (by decide) dX8_areSame_13 ?_
    exact hret _ _ _ _ _ _ dX8_areSame_14 (Option.some.inj h).symm rfl (Nat.le_of_ble_eq_true rfl) (Nat.le_of_ble_eq_true rfl)
  · rw [if_pos c] at h
    refine r_iconst G (v := 1) (by decide) dX8_areSame_9 ?_
    refine r_goto G (tgt := 14) dX8_areSame_10 (by decide) ?_
    exact hret _ _ _ _ _ _ dX8_areSame_14 (Option.some.inj h).symm rfl (Nat.le_of_ble_eq_true rfl) (Nat.le_of_ble_eq_true rfl)
abbrev rmX8_lies : Room := { frames := 0, cells := 0, slots := 0, locals := 0 }
set_option maxHeartbeats 4000000 in
set_option maxRecDepth 100000 in
theorem wX8_lies_L2 {E : evT} {l : Launch} {D : va_G} {bd : Nat → Nat} {κ : Nat → ClassId} (hE : EvOk E) {Γ : cxT} (G : Cx (mW bd κ) D (tyA κ) E l Γ cX8_lies RX8 wsX8_lies 3 rmX8_lies) (z0 : Nat) (hz0 : z0 < 67) (z1 : Nat) (hz1 : z1 < 67) {o : (Int32 × mS)} (hret : ∀ (st2 : mS) (v : Int32) (cells slots pc : Nat) (lv : List (Nat × Value)), decode cX8_lies pc = .ok (.ireturn, 1) → o = (v, st2) → narrow .boolean (.int v) = .int v → cells ≤ rmX8_lies.cells → slots ≤ rmX8_lies.slots → V (mW bd κ) D Γ st2 cells slots pc lv [.int v]) : ∀ (fuel : Nat) (x2 : Int32) (s : mS), fX8_lies_L2 z0 z1 fuel x2 s = some o → V (mW bd κ) D Γ s 0 0 2 [(0, .ref (bd z0)), (1, .ref (bd z1)), (2, .int x2)] [] := by
  intro fuel
  induction fuel with
  | zero =>
    intro _ _ h
    have h : none = some o := h
    cases h
  | succ fuel ih =>
    intro x2 s h
    rw [fX8_lies_L2] at h
    refine r_iload_n G 2 rfl rfl dX8_lies_2 ?_
    refine r_bipush G (v := 102) (by decide) dX8_lies_3 ?_
    refine r_icmp_ge G (tgt := 28) dX8_lies_5 (by decide) (fun c => ?_) (fun c => ?_)
    · rw [if_pos c] at h
      refine r_iconst G (v := 1) (by decide) dX8_lies_28 ?_
      exact hret _ _ _ _ _ _ dX8_lies_29 (Option.some.inj h).symm rfl (Nat.le_of_ble_eq_true rfl) (Nat.le_of_ble_eq_true rfl)
    · rw [if_neg c] at h
      refine r_aload_n G 0 rfl rfl dX8_lies_8 ?_
      refine r_iload_n G 2 rfl rfl dX8_lies_9 ?_
      obtain ⟨g1, h⟩ := og h
      refine r_zald G z0 4 (mw_ROW bd κ _ hz0) rfl (vin_in g1) dX8_lies_10 ?_
      refine r_if_eq G (tgt := 22) dX8_lies_11 (by decide) (fun c => ?_) (fun c => ?_)
      · rw [if_pos c] at h
        refine r_iinc G (j := 2) rfl (v := x2 + 1) (lv' := [(0, .ref (bd z0)), (1, .ref (bd z1)), (2, .int (x2 + 1))]) rfl [1, 2, 0] rfl (by decide) dX8_lies_22 ?_
        refine r_goto G (tgt := 2) dX8_lies_25 (by decide) ?_
        exact ih _ _ h
      · rw [if_neg c] at h
        refine r_aload_n G 1 rfl rfl dX8_lies_14 ?_
        refine r_iload_n G 2 rfl rfl dX8_lies_15 ?_
        obtain ⟨g2, h⟩ := og h
        refine r_zald G z1 4 (mw_ROW bd κ _ hz1) rfl (vin_in g2) dX8_lies_16 ?_
        refine r_if_ne G (tgt := 22) dX8_lies_17 (by decide) (fun c => ?_) (fun c => ?_)
        · rw [if_neg c] at h
          refine r_iinc G (j := 2) rfl (v := x2 + 1) (lv' := [(0, .ref (bd z0)), (1, .ref (bd z1)), (2, .int (x2 + 1))]) rfl [1, 2, 0] rfl (by decide) dX8_lies_22 ?_
          refine r_goto G (tgt := 2) dX8_lies_25 (by decide) ?_
          exact ih _ _ h
        · rw [if_pos c] at h
          refine r_iconst G (v := 0) (by decide) dX8_lies_20 ?_
          exact hret _ _ _ _ _ _ dX8_lies_21 (Option.some.inj h).symm rfl (Nat.le_of_ble_eq_true rfl) (Nat.le_of_ble_eq_true rfl)
set_option maxHeartbeats 4000000 in
set_option maxRecDepth 100000 in
theorem qX8_lies {E : evT} {l : Launch} {D : va_G} {bd : Nat → Nat} {κ : Nat → ClassId} (hE : EvOk E) (p0 : Nat) (hp0 : p0 < 67) (p1 : Nat) (hp1 : p1 < 67) (s : mS) {o : (Int32 × mS)} (h : fX8_lies p0 p1 s = some o) : Ci l yX8_lies wsX8_lies rmX8_lies (mW bd κ) E D (tyA κ) .boolean [.ref (bd p0), .ref (bd p1)] s (fun r s2 => o = (r, s2)) := by
  rw [fX8_lies] at h
  refine s_i (cc := cX8_lies) (nL := 3) (own := RX8) hE (mW_WA bd κ) (plainFor_of_name (by decide)) rfl rfl (Nat.le_of_ble_eq_true rfl) (fun Γ G hret => ?_)
  refine r_iconst G (v := 0) (by decide) dX8_lies_0 ?_
  refine r_istore_n G (lv' := [(0, .ref (bd p0)), (1, .ref (bd p1)), (2, .int 0)]) [1, 2, 0] rfl rfl (by decide) dX8_lies_1 ?_
  refine wX8_lies_L2 hE G _ hp0 _ hp1 hret 1100 _ _ h
abbrev rmX8_joins : Room := { frames := 0, cells := 0, slots := 0, locals := 0 }
set_option maxHeartbeats 4000000 in
set_option maxRecDepth 100000 in
theorem wX8_joins_L3 {E : evT} {l : Launch} {D : va_G} {bd : Nat → Nat} {κ : Nat → ClassId} (hE : EvOk E) {Γ : cxT} (G : Cx (mW bd κ) D (tyA κ) E l Γ cX8_joins RX8 wsX8_joins 5 rmX8_joins) (z0 : Nat) (hz0 : z0 < 67) (z1 : Nat) (hz1 : z1 < 67) (x2 : Int32) (z3 : Nat) (hz3 : z3 < 67) {o : (mS)} (hret : ∀ (st2 : mS) (cells slots pc : Nat) (lv : List (Nat × Value)), decode cX8_joins pc = .ok (.return_, 1) → o = st2 → cells ≤ rmX8_joins.cells → slots ≤ rmX8_joins.slots → V (mW bd κ) D Γ st2 cells slots pc lv []) : ∀ (fuel : Nat) (x4 : Int32) (s : mS), fX8_joins_L3 z0 z1 x2 z3 fuel x4 s = some o → V (mW bd κ) D Γ s 0 0 3 [(0, .ref (bd z0)), (1, .ref (bd z1)), (2, .int x2), (3, .ref (bd z3)), (4, .int x4)] [] := by
  intro fuel
  induction fuel with
  | zero =>
    intro _ _ h
    have h : none = some o := h
    cases h
  | succ fuel ih =>
    intro x4 s h
    rw [fX8_joins_L3] at h
    refine r_iload G 4 rfl dX8_joins_3 ?_
    refine r_bipush G (v := 102) (by decide) dX8_joins_5 ?_
    refine r_icmp_ge G (tgt := 116) dX8_joins_7 (by decide) (fun c => ?_) (fun c => ?_)
    · rw [if_pos c] at h
      exact hret _ _ _ _ _ dX8_joins_116 (Option.some.inj h).symm (Nat.le_of_ble_eq_true rfl) (Nat.le_of_ble_eq_true rfl)
    · rw [if_neg c] at h
      refine r_aload_n G 3 rfl rfl dX8_joins_10 ?_
      refine r_iload G 4 rfl dX8_joins_11 ?_
      refine r_iload_n G 2 rfl rfl dX8_joins_13 ?_
      refine r_if_ne G (tgt := 39) dX8_joins_14 (by decide) (fun c => ?_) (fun c => ?_)
      · rw [if_neg c] at h
        refine r_iload_n G 2 rfl rfl dX8_joins_39 ?_
        refine r_iconst G (v := 1) (by decide) dX8_joins_40 ?_
        refine r_icmp_ne G (tgt := 66) dX8_joins_41 (by decide) (fun c => ?_) (fun c => ?_)
        · rw [if_neg c] at h
          refine r_iload_n G 2 rfl rfl dX8_joins_66 ?_
          refine r_iconst G (v := 2) (by decide) dX8_joins_67 ?_
          refine r_icmp_ne G (tgt := 93) dX8_joins_68 (by decide) (fun c => ?_) (fun c => ?_)
          · rw [if_neg c] at h
            refine r_aload_n G 0 rfl rfl dX8_joins_93 ?_
            refine r_iload G 4 rfl dX8_joins_94 ?_
            obtain ⟨g1, h⟩ := og h
            refine r_zald G z0 4 (mw_ROW bd κ _ hz0) rfl (vin_in g1) dX8_joins_96 ?_
            refine r_aload_n G 1 rfl rfl dX8_joins_97 ?_
            refine r_iload G 4 rfl dX8_joins_98 ?_
            obtain ⟨g2, h⟩ := og h
            refine r_zald G z1 4 (mw_ROW bd κ _ hz1) rfl (vin_in g2) dX8_joins_100 ?_
            refine r_icmp_eq G (tgt := 108) dX8_joins_101 (by decide) (fun c => ?_) (fun c => ?_)
            · rw [if_pos c] at h
              refine r_iconst G (v := 0) (by decide) dX8_joins_108 ?_
              obtain ⟨g3, h⟩ := og h
              refine r_zast G z3 4 (mw_ROW bd κ _ hz3) rfl (vin_in g3) (mu_ROW bd κ _ hz3 _ _) dX8_joins_109 ?_
              refine r_iinc G (j := 4) rfl (v := x4 + 1) (lv' := [(0, .ref (bd z0)), (1, .ref (bd z1)), (2, .int x2), (3, .ref (bd z3)), (4, .int (x4 + 1))]) rfl [1, 2, 3, 4, 0] rfl (by decide) dX8_joins_110 ?_
              refine r_goto G (tgt := 3) dX8_joins_113 (by decide) ?_
              exact ih _ _ h
            · rw [if_neg c] at h
              refine r_iconst G (v := 1) (by decide) dX8_joins_104 ?_
              refine r_goto G (tgt := 109) dX8_joins_105 (by decide) ?_
              obtain ⟨g4, h⟩ := og h
              refine r_zast G z3 4 (mw_ROW bd κ _ hz3) rfl (vin_in g4) (mu_ROW bd κ _ hz3 _ _) dX8_joins_109 ?_
              refine r_iinc G (j := 4) rfl (v := x4 + 1) (lv' := [(0, .ref (bd z0)), (1, .ref (bd z1)), (2, .int x2), (3, .ref (bd z3)), (4, .int (x4 + 1))]) rfl [1, 2, 3, 4, 0] rfl (by decide) dX8_joins_110 ?_
              refine r_goto G (tgt := 3) dX8_joins_113 (by decide) ?_
              exact ih _ _ h
          · rw [if_pos c] at h
            refine r_aload_n G 0 rfl rfl dX8_joins_71 ?_
            refine r_iload G 4 rfl dX8_joins_72 ?_
            obtain ⟨g5, h⟩ := og h
            refine r_zald G z0 4 (mw_ROW bd κ _ hz0) rfl (vin_in g5) dX8_joins_74 ?_
            refine r_if_eq G (tgt := 89) dX8_joins_75 (by decide) (fun c => ?_) (fun c => ?_)
            · rw [if_pos c] at h
              refine r_iconst G (v := 0) (by decide) dX8_joins_89 ?_
              refine r_goto G (tgt := 109) dX8_joins_90 (by decide) ?_
              obtain ⟨g6, h⟩ := og h
              refine r_zast G z3 4 (mw_ROW bd κ _ hz3) rfl (vin_in g6) (mu_ROW bd κ _ hz3 _ _) dX8_joins_109 ?_
              refine r_iinc G (j := 4) rfl (v := x4 + 1) (lv' := [(0, .ref (bd z0)), (1, .ref (bd z1)), (2, .int x2), (3, .ref (bd z3)), (4, .int (x4 + 1))]) rfl [1, 2, 3, 4, 0] rfl (by decide) dX8_joins_110 ?_
              refine r_goto G (tgt := 3) dX8_joins_113 (by decide) ?_
              exact ih _ _ h
            · rw [if_neg c] at h
              refine r_aload_n G 1 rfl rfl dX8_joins_78 ?_
              refine r_iload G 4 rfl dX8_joins_79 ?_
              obtain ⟨g7, h⟩ := og h
              refine r_zald G z1 4 (mw_ROW bd κ _ hz1) rfl (vin_in g7) dX8_joins_81 ?_
              refine r_if_ne G (tgt := 89) dX8_joins_82 (by decide) (fun c => ?_) (fun c => ?_)
              · rw [if_neg c] at h
                refine r_iconst G (v := 0) (by decide) dX8_joins_89 ?_
                refine r_goto G (tgt := 109) dX8_joins_90 (by decide) ?_
                obtain ⟨g8, h⟩ := og h
                refine r_zast G z3 4 (mw_ROW bd κ _ hz3) rfl (vin_in g8) (mu_ROW bd κ _ hz3 _ _) dX8_joins_109 ?_
                refine r_iinc G (j := 4) rfl (v := x4 + 1) (lv' := [(0, .ref (bd z0)), (1, .ref (bd z1)), (2, .int x2), (3, .ref (bd z3)), (4, .int (x4 + 1))]) rfl [1, 2, 3, 4, 0] rfl (by decide) dX8_joins_110 ?_
                refine r_goto G (tgt := 3) dX8_joins_113 (by decide) ?_
                exact ih _ _ h
              · rw [if_pos c] at h
                refine r_iconst G (v := 1) (by decide) dX8_joins_85 ?_
                refine r_goto G (tgt := 109) dX8_joins_86 (by decide) ?_
                obtain ⟨g9, h⟩ := og h
                refine r_zast G z3 4 (mw_ROW bd κ _ hz3) rfl (vin_in g9) (mu_ROW bd κ _ hz3 _ _) dX8_joins_109 ?_
                refine r_iinc G (j := 4) rfl (v := x4 + 1) (lv' := [(0, .ref (bd z0)), (1, .ref (bd z1)), (2, .int x2), (3, .ref (bd z3)), (4, .int (x4 + 1))]) rfl [1, 2, 3, 4, 0] rfl (by decide) dX8_joins_110 ?_
                refine r_goto G (tgt := 3) dX8_joins_113 (by decide) ?_
                exact ih _ _ h
        · rw [if_pos c] at h
          refine r_aload_n G 0 rfl rfl dX8_joins_44 ?_
          refine r_iload G 4 rfl dX8_joins_45 ?_
          obtain ⟨g10, h⟩ := og h
          refine r_zald G z0 4 (mw_ROW bd κ _ hz0) rfl (vin_in g10) dX8_joins_47 ?_
          refine r_if_eq G (tgt := 62) dX8_joins_48 (by decide) (fun c => ?_) (fun c => ?_)
          · rw [if_pos c] at h
            refine r_iconst G (v := 0) (by decide) dX8_joins_62 ?_
            refine r_goto G (tgt := 109) dX8_joins_63 (by decide) ?_
            obtain ⟨g11, h⟩ := og h
            refine r_zast G z3 4 (mw_ROW bd κ _ hz3) rfl (vin_in g11) (mu_ROW bd κ _ hz3 _ _) dX8_joins_109 ?_
            refine r_iinc G (j := 4) rfl (v := x4 + 1) (lv' := [(0, .ref (bd z0)), (1, .ref (bd z1)), (2, .int x2), (3, .ref (bd z3)), (4, .int (x4 + 1))]) rfl [1, 2, 3, 4, 0] rfl (by decide) dX8_joins_110 ?_
            refine r_goto G (tgt := 3) dX8_joins_113 (by decide) ?_
            exact ih _ _ h
          · rw [if_neg c] at h
            refine r_aload_n G 1 rfl rfl dX8_joins_51 ?_
            refine r_iload G 4 rfl dX8_joins_52 ?_
            obtain ⟨g12, h⟩ := og h
            refine r_zald G z1 4 (mw_ROW bd κ _ hz1) rfl (vin_in g12) dX8_joins_54 ?_
            refine r_if_eq G (tgt := 62) dX8_joins_55 (by decide) (fun c => ?_) (fun c => ?_)
            · rw [if_pos c] at h
              refine r_iconst G (v := 0) (by decide) dX8_joins_62 ?_
              refine r_goto G (tgt := 109) dX8_joins_63 (by decide) ?_
              obtain ⟨g13, h⟩ := og h
              refine r_zast G z3 4 (mw_ROW bd κ _ hz3) rfl (vin_in g13) (mu_ROW bd κ _ hz3 _ _) dX8_joins_109 ?_
              refine r_iinc G (j := 4) rfl (v := x4 + 1) (lv' := [(0, .ref (bd z0)), (1, .ref (bd z1)), (2, .int x2), (3, .ref (bd z3)), (4, .int (x4 + 1))]) rfl [1, 2, 3, 4, 0] rfl (by decide) dX8_joins_110 ?_
              refine r_goto G (tgt := 3) dX8_joins_113 (by decide) ?_
              exact ih _ _ h
            · rw [if_neg c] at h
              refine r_iconst G (v := 1) (by decide) dX8_joins_58 ?_
              refine r_goto G (tgt := 109) dX8_joins_59 (by decide) ?_
              obtain ⟨g14, h⟩ := og h
              refine r_zast G z3 4 (mw_ROW bd κ _ hz3) rfl (vin_in g14) (mu_ROW bd κ _ hz3 _ _) dX8_joins_109 ?_
              refine r_iinc G (j := 4) rfl (v := x4 + 1) (lv' := [(0, .ref (bd z0)), (1, .ref (bd z1)), (2, .int x2), (3, .ref (bd z3)), (4, .int (x4 + 1))]) rfl [1, 2, 3, 4, 0] rfl (by decide) dX8_joins_110 ?_
              refine r_goto G (tgt := 3) dX8_joins_113 (by decide) ?_
              exact ih _ _ h
      · rw [if_pos c] at h
        refine r_aload_n G 0 rfl rfl dX8_joins_17 ?_
        refine r_iload G 4 rfl dX8_joins_18 ?_
        obtain ⟨g15, h⟩ := og h
        refine r_zald G z0 4 (mw_ROW bd κ _ hz0) rfl (vin_in g15) dX8_joins_20 ?_
        refine r_if_ne G (tgt := 31) dX8_joins_21 (by decide) (fun c => ?_) (fun c => ?_)
        · rw [if_neg c] at h
          refine r_iconst G (v := 1) (by decide) dX8_joins_31 ?_
          refine r_goto G (tgt := 109) dX8_joins_32 (by decide) ?_
          obtain ⟨g16, h⟩ := og h
          refine r_zast G z3 4 (mw_ROW bd κ _ hz3) rfl (vin_in g16) (mu_ROW bd κ _ hz3 _ _) dX8_joins_109 ?_
          refine r_iinc G (j := 4) rfl (v := x4 + 1) (lv' := [(0, .ref (bd z0)), (1, .ref (bd z1)), (2, .int x2), (3, .ref (bd z3)), (4, .int (x4 + 1))]) rfl [1, 2, 3, 4, 0] rfl (by decide) dX8_joins_110 ?_
          refine r_goto G (tgt := 3) dX8_joins_113 (by decide) ?_
          exact ih _ _ h
        · rw [if_pos c] at h
          refine r_aload_n G 1 rfl rfl dX8_joins_24 ?_
          refine r_iload G 4 rfl dX8_joins_25 ?_
          obtain ⟨g17, h⟩ := og h
          refine r_zald G z1 4 (mw_ROW bd κ _ hz1) rfl (vin_in g17) dX8_joins_27 ?_
          refine r_if_eq G (tgt := 35) dX8_joins_28 (by decide) (fun c => ?_) (fun c => ?_)
          · rw [if_pos c] at h
            refine r_iconst G (v := 0) (by decide) dX8_joins_35 ?_
            refine r_goto G (tgt := 109) dX8_joins_36 (by decide) ?_
            obtain ⟨g18, h⟩ := og h
            refine r_zast G z3 4 (mw_ROW bd κ _ hz3) rfl (vin_in g18) (mu_ROW bd κ _ hz3 _ _) dX8_joins_109 ?_
            refine r_iinc G (j := 4) rfl (v := x4 + 1) (lv' := [(0, .ref (bd z0)), (1, .ref (bd z1)), (2, .int x2), (3, .ref (bd z3)), (4, .int (x4 + 1))]) rfl [1, 2, 3, 4, 0] rfl (by decide) dX8_joins_110 ?_
            refine r_goto G (tgt := 3) dX8_joins_113 (by decide) ?_
            exact ih _ _ h
          · rw [if_neg c] at h
            refine r_iconst G (v := 1) (by decide) dX8_joins_31 ?_
            refine r_goto G (tgt := 109) dX8_joins_32 (by decide) ?_
            obtain ⟨g19, h⟩ := og h
            refine r_zast G z3 4 (mw_ROW bd κ _ hz3) rfl (vin_in g19) (mu_ROW bd κ _ hz3 _ _) dX8_joins_109 ?_
            refine r_iinc G (j := 4) rfl (v := x4 + 1) (lv' := [(0, .ref (bd z0)), (1, .ref (bd z1)), (2, .int x2), (3, .ref (bd z3)), (4, .int (x4 + 1))]) rfl [1, 2, 3, 4, 0] rfl (by decide) dX8_joins_110 ?_
            refine r_goto G (tgt := 3) dX8_joins_113 (by decide) ?_
            exact ih _ _ h
set_option maxHeartbeats 4000000 in
set_option maxRecDepth 100000 in
theorem qX8_joins {E : evT} {l : Launch} {D : va_G} {bd : Nat → Nat} {κ : Nat → ClassId} (hE : EvOk E) (p0 : Nat) (hp0 : p0 < 67) (p1 : Nat) (hp1 : p1 < 67) (p2 : Int32) (p3 : Nat) (hp3 : p3 < 67) (s : mS) {o : (mS)} (h : fX8_joins p0 p1 p2 p3 s = some o) : Cv l yX8_joins wsX8_joins rmX8_joins (mW bd κ) E D (tyA κ)  [.ref (bd p0), .ref (bd p1), .int p2, .ref (bd p3)] s (fun s2 => o = s2) := by
  rw [fX8_joins] at h
  refine s_v (cc := cX8_joins) (nL := 5) (own := RX8) hE (mW_WA bd κ) (by decide) rfl rfl (Nat.le_of_ble_eq_true rfl) (fun Γ G hret => ?_)
  refine r_iconst G (v := 0) (by decide) dX8_joins_0 ?_
  refine r_istore G (lv' := [(0, .ref (bd p0)), (1, .ref (bd p1)), (2, .int p2), (3, .ref (bd p3)), (4, .int 0)]) [1, 2, 3, 4, 0] rfl (by decide) dX8_joins_1 ?_
  refine wX8_joins_L3 hE G _ hp0 _ hp1 _ _ hp3 hret 1100 _ _ h
abbrev rmX8_puts : Room := { frames := 1, cells := 0, slots := 0, locals := 20 }
theorem hdX8_placeOfMember : yX8_placeOfMember.cls ≠ "java/lang/invoke/MethodHandle" ∧ yX8_placeOfMember.cls ≠ "java/lang/invoke/VarHandle" ∧ (parseMethodDescriptor yX8_placeOfMember.desc).map (fun d => d.parameters.length) = some 1 := by decide +kernel
set_option maxRecDepth 20000 in
theorem kX8_puts_X8 : ∀ w ∈ u_ws RX8 TX8 19, w ∈ wsX8_puts := by decide +kernel
set_option maxRecDepth 20000 in
theorem mX8_puts_f27 : Cond.fieldLink RX8 27 "SetCouncilModel" "sets" "[[Z" ∈ wsX8_puts := by decide +kernel
set_option maxHeartbeats 4000000 in
set_option maxRecDepth 100000 in
theorem qX8_puts {E : evT} {l : Launch} {D : va_G} {bd : Nat → Nat} {κ : Nat → ClassId} (hE : EvOk E) (p0 : Int32) (p1 : Int32) (p2 : Int32) (s : mS) {o : (Int32 × mS)} (h : fX8_puts p0 p1 p2 s = some o) : Ci l yX8_puts wsX8_puts rmX8_puts (mW bd κ) E D (tyA κ) .boolean [.ref (bd 67), .int p0, .int p1, .int p2] s (fun r s2 => o = (r, s2)) := by
  rw [fX8_puts] at h
  refine s_i (cc := cX8_puts) (nL := 6) (own := RX8) hE (mW_WA bd κ) (plainFor_of_name (by decide)) rfl rfl (Nat.le_of_ble_eq_true rfl) (fun Γ G hret => ?_)
  refine r_iload_n G 2 rfl rfl dX8_puts_0 ?_
  refine r_callSi G [.int p1] (qX8_placeOfMember hE p1 _) gX8_puts_X8_placeOfMember rfl hdX8_placeOfMember ⟨Nat.le_of_ble_eq_true rfl, Nat.le_of_ble_eq_true rfl⟩ (Nat.le_of_ble_eq_true rfl) rfl ⟨Nat.le_of_ble_eq_true rfl, Nat.le_of_ble_eq_true rfl⟩ rfl rfl dX8_puts_1 (fun r1 s1 hp hn1 => ?_)
  obtain ⟨rfl, hs⟩ := hp
  have hs := hs.symm
  subst hs
  refine r_istore G (lv' := [(0, .ref (bd 67)), (1, .int p0), (3, .int p2), (4, .int (fX8_placeOfMember p1 s))]) [1, 2, 4, 0] rfl (by decide) dX8_puts_4 ?_
  refine r_aload_n G 0 rfl rfl dX8_puts_6 ?_
  refine r_get G (C := RX8) (T := TX8) (N := 19) kX8_puts_X8 67 (mw_MO bd κ _) rfl 1 (by decide) mX8_puts_f27 rfl rfl dX8_puts_7 ?_
  refine r_iload_n G 1 rfl rfl dX8_puts_10 ?_
  obtain ⟨g2, h⟩ := og h
  refine r_aldA G 68 5 (mw_SETSG bd κ _) rfl (vin_in g2) rfl dX8_puts_11 ?_
  refine r_iload G 3 rfl dX8_puts_12 ?_
  obtain ⟨g3, h⟩ := og h
  refine r_zald G p0.toNatClampNeg 4 (mw_ROW bd κ _ (by have := vin_lt g2; omega)) rfl (vin_in g3) dX8_puts_14 ?_
  refine r_iload_n G 2 rfl rfl dX8_puts_15 ?_
  refine r_icmp_eq G (tgt := 23) dX8_puts_16 (by decide) (fun c => ?_) (fun c => ?_)
  · rw [if_pos c] at h
    refine r_iconst G (v := 0) (by decide) dX8_puts_23 ?_
    refine r_istore G (lv' := [(0, .ref (bd 67)), (1, .int p0), (3, .int p2), (4, .int (fX8_placeOfMember p1 s)), (5, .int 0)]) [1, 2, 3, 4, 0] rfl (by decide) dX8_puts_24 ?_
    refine r_aload_n G 0 rfl rfl dX8_puts_26 ?_
    refine r_get G (C := RX8) (T := TX8) (N := 19) kX8_puts_X8 67 (mw_MO bd κ _) rfl 1 (by decide) mX8_puts_f27 rfl rfl dX8_puts_27 ?_
    refine r_iload_n G 1 rfl rfl dX8_puts_30 ?_
    obtain ⟨g4, h⟩ := og h
    refine r_aldA G 68 5 (mw_SETSG bd κ _) rfl (vin_in g4) rfl dX8_puts_31 ?_
    refine r_iload G 3 rfl dX8_puts_32 ?_
    refine r_iload_n G 2 rfl rfl dX8_puts_34 ?_
    obtain ⟨g5, h⟩ := og h
    refine r_zast G p0.toNatClampNeg 4 (mw_ROW bd κ _ (by have := vin_lt g4; omega)) rfl (vin_in g5) (mu_ROW bd κ _ (by have := vin_lt g4; omega) _ _) dX8_puts_35 ?_
    refine r_iload G 4 rfl dX8_puts_36 ?_
    exact hret _ _ _ _ _ _ dX8_puts_38 (Option.some.inj h).symm rfl (Nat.le_of_ble_eq_true rfl) (Nat.le_of_ble_eq_true rfl)
  · rw [if_neg c] at h
    refine r_iconst G (v := 1) (by decide) dX8_puts_19 ?_
    refine r_goto G (tgt := 24) dX8_puts_20 (by decide) ?_
    refine r_istore G (lv' := [(0, .ref (bd 67)), (1, .int p0), (3, .int p2), (4, .int (fX8_placeOfMember p1 s)), (5, .int 1)]) [1, 2, 3, 4, 0] rfl (by decide) dX8_puts_24 ?_
    refine r_aload_n G 0 rfl rfl dX8_puts_26 ?_
    refine r_get G (C := RX8) (T := TX8) (N := 19) kX8_puts_X8 67 (mw_MO bd κ _) rfl 1 (by decide) mX8_puts_f27 rfl rfl dX8_puts_27 ?_
    refine r_iload_n G 1 rfl rfl dX8_puts_30 ?_
    obtain ⟨g6, h⟩ := og h
    refine r_aldA G 68 5 (mw_SETSG bd κ _) rfl (vin_in g6) rfl dX8_puts_31 ?_
    refine r_iload G 3 rfl dX8_puts_32 ?_
    refine r_iload_n G 2 rfl rfl dX8_puts_34 ?_
    obtain ⟨g7, h⟩ := og h
    refine r_zast G p0.toNatClampNeg 4 (mw_ROW bd κ _ (by have := vin_lt g6; omega)) rfl (vin_in g7) (mu_ROW bd κ _ (by have := vin_lt g6; omega) _ _) dX8_puts_35 ?_
    refine r_iload G 4 rfl dX8_puts_36 ?_
    exact hret _ _ _ _ _ _ dX8_puts_38 (Option.some.inj h).symm rfl (Nat.le_of_ble_eq_true rfl) (Nat.le_of_ble_eq_true rfl)
abbrev rmX8_add : Room := { frames := 2, cells := 0, slots := 0, locals := 45 }
theorem hdX8_isSet : yX8_isSet.cls ≠ "java/lang/invoke/MethodHandle" ∧ yX8_isSet.cls ≠ "java/lang/invoke/VarHandle" ∧ (parseMethodDescriptor yX8_isSet.desc).map (fun d => d.parameters.length) = some 1 := by decide +kernel
theorem hdX8_isMember : yX8_isMember.cls ≠ "java/lang/invoke/MethodHandle" ∧ yX8_isMember.cls ≠ "java/lang/invoke/VarHandle" ∧ (parseMethodDescriptor yX8_isMember.desc).map (fun d => d.parameters.length) = some 1 := by decide +kernel
theorem hdX8_passes : yX8_passes.cls = RX8 ∧ yX8_passes.cls ≠ "java/lang/invoke/MethodHandle" ∧ yX8_passes.cls ≠ "java/lang/invoke/VarHandle" ∧ (parseMethodDescriptor yX8_passes.desc).map (fun d => d.parameters.length) = some 2 := by decide +kernel
theorem hdX8_puts : yX8_puts.cls = RX8 ∧ yX8_puts.cls ≠ "java/lang/invoke/MethodHandle" ∧ yX8_puts.cls ≠ "java/lang/invoke/VarHandle" ∧ (parseMethodDescriptor yX8_puts.desc).map (fun d => d.parameters.length) = some 3 := by decide +kernel
set_option maxHeartbeats 4000000 in
set_option maxRecDepth 100000 in
theorem qX8_add {E : evT} {l : Launch} {D : va_G} {bd : Nat → Nat} {κ : Nat → ClassId} (hE : EvOk E) (p0 : Int32) (p1 : Int32) (s : mS) {o : (Int32 × mS)} (h : fX8_add p0 p1 s = some o) : Ci l yX8_add wsX8_add rmX8_add (mW bd κ) E D (tyA κ) .boolean [.ref (bd 67), .int p0, .int p1] s (fun r s2 => o = (r, s2)) := by
  rw [fX8_add] at h
  refine s_i (cc := cX8_add) (nL := 3) (own := RX8) hE (mW_WA bd κ) (plainFor_of_name (by decide)) rfl rfl (Nat.le_of_ble_eq_true rfl) (fun Γ G hret => ?_)
  refine r_aload_n G 0 rfl rfl dX8_add_0 ?_
  refine r_iload_n G 1 rfl rfl dX8_add_1 ?_
  refine r_callSi G [.int p0] (qX8_isSet hE p0 _) gX8_add_X8_isSet rfl hdX8_isSet ⟨Nat.le_of_ble_eq_true rfl, Nat.le_of_ble_eq_true rfl⟩ (Nat.le_of_ble_eq_true rfl) rfl ⟨Nat.le_of_ble_eq_true rfl, Nat.le_of_ble_eq_true rfl⟩ rfl rfl dX8_add_2 (fun r1 s1 hp hn1 => ?_)
  obtain ⟨rfl, hs⟩ := hp
  have hs := hs.symm
  subst hs
  refine r_iload_n G 2 rfl rfl dX8_add_5 ?_
  refine r_callSi G [.int p1] (qX8_isMember hE p1 _) gX8_add_X8_isMember rfl hdX8_isMember ⟨Nat.le_of_ble_eq_true rfl, Nat.le_of_ble_eq_true rfl⟩ (Nat.le_of_ble_eq_true rfl) rfl ⟨Nat.le_of_ble_eq_true rfl, Nat.le_of_ble_eq_true rfl⟩ rfl rfl dX8_add_6 (fun r2 s2 hp hn2 => ?_)
  obtain ⟨rfl, hs⟩ := hp
  have hs := hs.symm
  subst hs
  obtain ⟨o3, e3, h⟩ := ob h
  refine r_callVi G [.int (fX8_isSet p0 s), .int (fX8_isMember p1 s)] (qX8_passes hE (fX8_isSet p0 s) (fX8_isMember p1 s) _ e3) ⟨67, 8, _, _, rfl, (mw_MO bd κ _), rfl⟩ gX8_add_X8_passes rfl hdX8_passes ⟨Nat.le_of_ble_eq_true rfl, Nat.le_of_ble_eq_true rfl⟩ (Nat.le_of_ble_eq_true rfl) rfl ⟨Nat.le_of_ble_eq_true rfl, Nat.le_of_ble_eq_true rfl⟩ rfl rfl dX8_add_9 (fun r3 s3 hp hn3 => ?_)
  subst hp
  try dsimp only at h
  refine r_if_eq G (tgt := 29) dX8_add_12 (by decide) (fun c => ?_) (fun c => ?_)
  · rw [if_pos c] at h
    refine r_iconst G (v := 0) (by decide) dX8_add_29 ?_
    exact hret _ _ _ _ _ _ dX8_add_30 (Option.some.inj h).symm rfl (Nat.le_of_ble_eq_true rfl) (Nat.le_of_ble_eq_true rfl)
  · rw [if_neg c] at h
    refine r_aload_n G 0 rfl rfl dX8_add_15 ?_
    refine r_iload_n G 1 rfl rfl dX8_add_16 ?_
    refine r_iload_n G 2 rfl rfl dX8_add_17 ?_
    refine r_iconst G (v := 1) (by decide) dX8_add_18 ?_
    obtain ⟨o4, e4, h⟩ := ob h
    refine r_callVi G [.int p0, .int p1, .int 1] (qX8_puts hE p0 p1 (1 : Int32) _ e4) ⟨67, 8, _, _, rfl, (mw_MO bd κ _), rfl⟩ gX8_add_X8_puts rfl hdX8_puts ⟨Nat.le_of_ble_eq_true rfl, Nat.le_of_ble_eq_true rfl⟩ (Nat.le_of_ble_eq_true rfl) rfl ⟨Nat.le_of_ble_eq_true rfl, Nat.le_of_ble_eq_true rfl⟩ rfl rfl dX8_add_19 (fun r4 s4 hp hn4 => ?_)
    subst hp
    try dsimp only at h
    refine r_if_eq G (tgt := 29) dX8_add_22 (by decide) (fun c => ?_) (fun c => ?_)
    · rw [if_pos c] at h
      refine r_iconst G (v := 0) (by decide) dX8_add_29 ?_
      exact hret _ _ _ _ _ _ dX8_add_30 (Option.some.inj h).symm rfl (Nat.le_of_ble_eq_true rfl) (Nat.le_of_ble_eq_true rfl)
    · rw [if_neg c] at h
      refine r_iconst G (v := 1) (by decide) dX8_add_25 ?_
      refine r_goto G (tgt := 30) dX8_add_26 (by decide) ?_
      exact hret _ _ _ _ _ _ dX8_add_30 (Option.some.inj h).symm rfl (Nat.le_of_ble_eq_true rfl) (Nat.le_of_ble_eq_true rfl)
abbrev rmX8_remove : Room := { frames := 2, cells := 0, slots := 0, locals := 45 }
set_option maxHeartbeats 4000000 in
set_option maxRecDepth 100000 in
theorem qX8_remove {E : evT} {l : Launch} {D : va_G} {bd : Nat → Nat} {κ : Nat → ClassId} (hE : EvOk E) (p0 : Int32) (p1 : Int32) (s : mS) {o : (Int32 × mS)} (h : fX8_remove p0 p1 s = some o) : Ci l yX8_remove wsX8_remove rmX8_remove (mW bd κ) E D (tyA κ) .boolean [.ref (bd 67), .int p0, .int p1] s (fun r s2 => o = (r, s2)) := by
  rw [fX8_remove] at h
  refine s_i (cc := cX8_remove) (nL := 3) (own := RX8) hE (mW_WA bd κ) (plainFor_of_name (by decide)) rfl rfl (Nat.le_of_ble_eq_true rfl) (fun Γ G hret => ?_)
  refine r_aload_n G 0 rfl rfl dX8_remove_0 ?_
  refine r_iload_n G 1 rfl rfl dX8_remove_1 ?_
  refine r_callSi G [.int p0] (qX8_isSet hE p0 _) gX8_remove_X8_isSet rfl hdX8_isSet ⟨Nat.le_of_ble_eq_true rfl, Nat.le_of_ble_eq_true rfl⟩ (Nat.le_of_ble_eq_true rfl) rfl ⟨Nat.le_of_ble_eq_true rfl, Nat.le_of_ble_eq_true rfl⟩ rfl rfl dX8_remove_2 (fun r1 s1 hp hn1 => ?_)
  obtain ⟨rfl, hs⟩ := hp
  have hs := hs.symm
  subst hs
  refine r_iload_n G 2 rfl rfl dX8_remove_5 ?_
  refine r_callSi G [.int p1] (qX8_isMember hE p1 _) gX8_remove_X8_isMember rfl hdX8_isMember ⟨Nat.le_of_ble_eq_true rfl, Nat.le_of_ble_eq_true rfl⟩ (Nat.le_of_ble_eq_true rfl) rfl ⟨Nat.le_of_ble_eq_true rfl, Nat.le_of_ble_eq_true rfl⟩ rfl rfl dX8_remove_6 (fun r2 s2 hp hn2 => ?_)
  obtain ⟨rfl, hs⟩ := hp
  have hs := hs.symm
  subst hs
  obtain ⟨o3, e3, h⟩ := ob h
  refine r_callVi G [.int (fX8_isSet p0 s), .int (fX8_isMember p1 s)] (qX8_passes hE (fX8_isSet p0 s) (fX8_isMember p1 s) _ e3) ⟨67, 8, _, _, rfl, (mw_MO bd κ _), rfl⟩ gX8_remove_X8_passes rfl hdX8_passes ⟨Nat.le_of_ble_eq_true rfl, Nat.le_of_ble_eq_true rfl⟩ (Nat.le_of_ble_eq_true rfl) rfl ⟨Nat.le_of_ble_eq_true rfl, Nat.le_of_ble_eq_true rfl⟩ rfl rfl dX8_remove_9 (fun r3 s3 hp hn3 => ?_)
  subst hp
  try dsimp only at h
  refine r_if_eq G (tgt := 29) dX8_remove_12 (by decide) (fun c => ?_) (fun c => ?_)
  · rw [if_pos c] at h
    refine r_iconst G (v := 0) (by decide) dX8_remove_29 ?_
    exact hret _ _ _ _ _ _ dX8_remove_30 (Option.some.inj h).symm rfl (Nat.le_of_ble_eq_true rfl) (Nat.le_of_ble_eq_true rfl)
  · rw [if_neg c] at h
    refine r_aload_n G 0 rfl rfl dX8_remove_15 ?_
    refine r_iload_n G 1 rfl rfl dX8_remove_16 ?_
    refine r_iload_n G 2 rfl rfl dX8_remove_17 ?_
    refine r_iconst G (v := 0) (by decide) dX8_remove_18 ?_
    obtain ⟨o4, e4, h⟩ := ob h
    refine r_callVi G [.int p0, .int p1, .int 0] (qX8_puts hE p0 p1 (0 : Int32) _ e4) ⟨67, 8, _, _, rfl, (mw_MO bd κ _), rfl⟩ gX8_remove_X8_puts rfl hdX8_puts ⟨Nat.le_of_ble_eq_true rfl, Nat.le_of_ble_eq_true rfl⟩ (Nat.le_of_ble_eq_true rfl) rfl ⟨Nat.le_of_ble_eq_true rfl, Nat.le_of_ble_eq_true rfl⟩ rfl rfl dX8_remove_19 (fun r4 s4 hp hn4 => ?_)
    subst hp
    try dsimp only at h
    refine r_if_eq G (tgt := 29) dX8_remove_22 (by decide) (fun c => ?_) (fun c => ?_)
    · rw [if_pos c] at h
      refine r_iconst G (v := 0) (by decide) dX8_remove_29 ?_
      exact hret _ _ _ _ _ _ dX8_remove_30 (Option.some.inj h).symm rfl (Nat.le_of_ble_eq_true rfl) (Nat.le_of_ble_eq_true rfl)
    · rw [if_neg c] at h
      refine r_iconst G (v := 1) (by decide) dX8_remove_25 ?_
      refine r_goto G (tgt := 30) dX8_remove_26 (by decide) ?_
      exact hret _ _ _ _ _ _ dX8_remove_30 (Option.some.inj h).symm rfl (Nat.le_of_ble_eq_true rfl) (Nat.le_of_ble_eq_true rfl)
abbrev rmX8_has : Room := { frames := 2, cells := 0, slots := 0, locals := 42 }
set_option maxRecDepth 20000 in
theorem kX8_has_X8 : ∀ w ∈ u_ws RX8 TX8 19, w ∈ wsX8_has := by decide +kernel
set_option maxRecDepth 20000 in
theorem mX8_has_f27 : Cond.fieldLink RX8 27 "SetCouncilModel" "sets" "[[Z" ∈ wsX8_has := by decide +kernel
set_option maxHeartbeats 4000000 in
set_option maxRecDepth 100000 in
theorem qX8_has {E : evT} {l : Launch} {D : va_G} {bd : Nat → Nat} {κ : Nat → ClassId} (hE : EvOk E) (p0 : Int32) (p1 : Int32) (s : mS) {o : (Int32 × mS)} (h : fX8_has p0 p1 s = some o) : Ci l yX8_has wsX8_has rmX8_has (mW bd κ) E D (tyA κ) .boolean [.ref (bd 67), .int p0, .int p1] s (fun r s2 => o = (r, s2)) := by
  rw [fX8_has] at h
  refine s_i (cc := cX8_has) (nL := 3) (own := RX8) hE (mW_WA bd κ) (plainFor_of_name (by decide)) rfl rfl (Nat.le_of_ble_eq_true rfl) (fun Γ G hret => ?_)
  refine r_aload_n G 0 rfl rfl dX8_has_0 ?_
  refine r_iload_n G 1 rfl rfl dX8_has_1 ?_
  refine r_callSi G [.int p0] (qX8_isSet hE p0 _) gX8_has_X8_isSet rfl hdX8_isSet ⟨Nat.le_of_ble_eq_true rfl, Nat.le_of_ble_eq_true rfl⟩ (Nat.le_of_ble_eq_true rfl) rfl ⟨Nat.le_of_ble_eq_true rfl, Nat.le_of_ble_eq_true rfl⟩ rfl rfl dX8_has_2 (fun r1 s1 hp hn1 => ?_)
  obtain ⟨rfl, hs⟩ := hp
  have hs := hs.symm
  subst hs
  refine r_iload_n G 2 rfl rfl dX8_has_5 ?_
  refine r_callSi G [.int p1] (qX8_isMember hE p1 _) gX8_has_X8_isMember rfl hdX8_isMember ⟨Nat.le_of_ble_eq_true rfl, Nat.le_of_ble_eq_true rfl⟩ (Nat.le_of_ble_eq_true rfl) rfl ⟨Nat.le_of_ble_eq_true rfl, Nat.le_of_ble_eq_true rfl⟩ rfl rfl dX8_has_6 (fun r2 s2 hp hn2 => ?_)
  obtain ⟨rfl, hs⟩ := hp
  have hs := hs.symm
  subst hs
  obtain ⟨o3, e3, h⟩ := ob h
  refine r_callVi G [.int (fX8_isSet p0 s), .int (fX8_isMember p1 s)] (qX8_passes hE (fX8_isSet p0 s) (fX8_isMember p1 s) _ e3) ⟨67, 8, _, _, rfl, (mw_MO bd κ _), rfl⟩ gX8_has_X8_passes rfl hdX8_passes ⟨Nat.le_of_ble_eq_true rfl, Nat.le_of_ble_eq_true rfl⟩ (Nat.le_of_ble_eq_true rfl) rfl ⟨Nat.le_of_ble_eq_true rfl, Nat.le_of_ble_eq_true rfl⟩ rfl rfl dX8_has_9 (fun r3 s3 hp hn3 => ?_)
  subst hp
  try dsimp only at h
  refine r_if_eq G (tgt := 33) dX8_has_12 (by decide) (fun c => ?_) (fun c => ?_)
  · rw [if_pos c] at h
    refine r_iconst G (v := 0) (by decide) dX8_has_33 ?_
    exact hret _ _ _ _ _ _ dX8_has_34 (Option.some.inj h).symm rfl (Nat.le_of_ble_eq_true rfl) (Nat.le_of_ble_eq_true rfl)
  · rw [if_neg c] at h
    refine r_aload_n G 0 rfl rfl dX8_has_15 ?_
    refine r_get G (C := RX8) (T := TX8) (N := 19) kX8_has_X8 67 (mw_MO bd κ _) rfl 1 (by decide) mX8_has_f27 rfl rfl dX8_has_16 ?_
    refine r_iload_n G 1 rfl rfl dX8_has_19 ?_
    obtain ⟨g4, h⟩ := og h
    refine r_aldA G 68 5 (mw_SETSG bd κ _) rfl (vin_in g4) rfl dX8_has_20 ?_
    refine r_iload_n G 2 rfl rfl dX8_has_21 ?_
    refine r_callSi G [.int p1] (qX8_placeOfMember hE p1 _) gX8_has_X8_placeOfMember rfl hdX8_placeOfMember ⟨Nat.le_of_ble_eq_true rfl, Nat.le_of_ble_eq_true rfl⟩ (Nat.le_of_ble_eq_true rfl) rfl ⟨Nat.le_of_ble_eq_true rfl, Nat.le_of_ble_eq_true rfl⟩ rfl rfl dX8_has_22 (fun r5 s5 hp hn5 => ?_)
    obtain ⟨rfl, hs⟩ := hp
    have hs := hs.symm
    subst hs
    obtain ⟨g6, h⟩ := og h
    refine r_zald G p0.toNatClampNeg 4 (mw_ROW bd κ _ (by have := vin_lt g4; omega)) rfl (vin_in g6) dX8_has_25 ?_
    refine r_if_eq G (tgt := 33) dX8_has_26 (by decide) (fun c => ?_) (fun c => ?_)
    · rw [if_pos c] at h
      refine r_iconst G (v := 0) (by decide) dX8_has_33 ?_
      exact hret _ _ _ _ _ _ dX8_has_34 (Option.some.inj h).symm rfl (Nat.le_of_ble_eq_true rfl) (Nat.le_of_ble_eq_true rfl)
    · rw [if_neg c] at h
      refine r_iconst G (v := 1) (by decide) dX8_has_29 ?_
      refine r_goto G (tgt := 34) dX8_has_30 (by decide) ?_
      exact hret _ _ _ _ _ _ dX8_has_34 (Option.some.inj h).symm rfl (Nat.le_of_ble_eq_true rfl) (Nat.le_of_ble_eq_true rfl)
abbrev rmX8_size : Room := { frames := 2, cells := 0, slots := 0, locals := 42 }
set_option maxRecDepth 20000 in
theorem kX8_size_X8 : ∀ w ∈ u_ws RX8 TX8 19, w ∈ wsX8_size := by decide +kernel
set_option maxRecDepth 20000 in
theorem mX8_size_f27 : Cond.fieldLink RX8 27 "SetCouncilModel" "sets" "[[Z" ∈ wsX8_size := by decide +kernel
theorem hdX8_sizeOf : yX8_sizeOf.cls ≠ "java/lang/invoke/MethodHandle" ∧ yX8_sizeOf.cls ≠ "java/lang/invoke/VarHandle" ∧ (parseMethodDescriptor yX8_sizeOf.desc).map (fun d => d.parameters.length) = some 1 := by decide +kernel
set_option maxHeartbeats 4000000 in
set_option maxRecDepth 100000 in
theorem qX8_size {E : evT} {l : Launch} {D : va_G} {bd : Nat → Nat} {κ : Nat → ClassId} (hE : EvOk E) (p0 : Int32) (s : mS) {o : (Int32 × mS)} (h : fX8_size p0 s = some o) : Ci l yX8_size wsX8_size rmX8_size (mW bd κ) E D (tyA κ) .int [.ref (bd 67), .int p0] s (fun r s2 => o = (r, s2)) := by
  rw [fX8_size] at h
  refine s_i (cc := cX8_size) (nL := 2) (own := RX8) hE (mW_WA bd κ) (plainFor_of_name (by decide)) rfl rfl (Nat.le_of_ble_eq_true rfl) (fun Γ G hret => ?_)
  refine r_aload_n G 0 rfl rfl dX8_size_0 ?_
  refine r_iload_n G 1 rfl rfl dX8_size_1 ?_
  refine r_callSi G [.int p0] (qX8_isSet hE p0 _) gX8_size_X8_isSet rfl hdX8_isSet ⟨Nat.le_of_ble_eq_true rfl, Nat.le_of_ble_eq_true rfl⟩ (Nat.le_of_ble_eq_true rfl) rfl ⟨Nat.le_of_ble_eq_true rfl, Nat.le_of_ble_eq_true rfl⟩ rfl rfl dX8_size_2 (fun r1 s1 hp hn1 => ?_)
  obtain ⟨rfl, hs⟩ := hp
  have hs := hs.symm
  subst hs
  refine r_iconst G (v := 1) (by decide) dX8_size_5 ?_
  obtain ⟨o2, e2, h⟩ := ob h
  refine r_callVi G [.int (fX8_isSet p0 s), .int 1] (qX8_passes hE (fX8_isSet p0 s) (1 : Int32) _ e2) ⟨67, 8, _, _, rfl, (mw_MO bd κ _), rfl⟩ gX8_size_X8_passes rfl hdX8_passes ⟨Nat.le_of_ble_eq_true rfl, Nat.le_of_ble_eq_true rfl⟩ (Nat.le_of_ble_eq_true rfl) rfl ⟨Nat.le_of_ble_eq_true rfl, Nat.le_of_ble_eq_true rfl⟩ rfl rfl dX8_size_6 (fun r2 s2 hp hn2 => ?_)
  subst hp
  try dsimp only at h
  refine r_if_eq G (tgt := 24) dX8_size_9 (by decide) (fun c => ?_) (fun c => ?_)
  · rw [if_pos c] at h
    refine r_iconst G (v := 0) (by decide) dX8_size_24 ?_
    exact hret _ _ _ _ _ _ dX8_size_25 (Option.some.inj h).symm rfl (Nat.le_of_ble_eq_true rfl) (Nat.le_of_ble_eq_true rfl)
  · rw [if_neg c] at h
    refine r_aload_n G 0 rfl rfl dX8_size_12 ?_
    refine r_get G (C := RX8) (T := TX8) (N := 19) kX8_size_X8 67 (mw_MO bd κ _) rfl 1 (by decide) mX8_size_f27 rfl rfl dX8_size_13 ?_
    refine r_iload_n G 1 rfl rfl dX8_size_16 ?_
    obtain ⟨g3, h⟩ := og h
    refine r_aldA G 68 5 (mw_SETSG bd κ _) rfl (vin_in g3) rfl dX8_size_17 ?_
    obtain ⟨o4, e4, h⟩ := ob h
    refine r_callSi G [.ref (bd p0.toNatClampNeg)] (qX8_sizeOf hE p0.toNatClampNeg (by have := vin_lt g3; omega) _ e4) gX8_size_X8_sizeOf rfl hdX8_sizeOf ⟨Nat.le_of_ble_eq_true rfl, Nat.le_of_ble_eq_true rfl⟩ (Nat.le_of_ble_eq_true rfl) rfl ⟨Nat.le_of_ble_eq_true rfl, Nat.le_of_ble_eq_true rfl⟩ rfl rfl dX8_size_18 (fun r4 s4 hp hn4 => ?_)
    subst hp
    try dsimp only at h
    refine r_goto G (tgt := 25) dX8_size_21 (by decide) ?_
    exact hret _ _ _ _ _ _ dX8_size_25 (Option.some.inj h).symm rfl (Nat.le_of_ble_eq_true rfl) (Nat.le_of_ble_eq_true rfl)
abbrev rmX8_sum : Room := { frames := 2, cells := 0, slots := 0, locals := 42 }
set_option maxRecDepth 20000 in
theorem kX8_sum_X8 : ∀ w ∈ u_ws RX8 TX8 19, w ∈ wsX8_sum := by decide +kernel
set_option maxRecDepth 20000 in
theorem mX8_sum_f27 : Cond.fieldLink RX8 27 "SetCouncilModel" "sets" "[[Z" ∈ wsX8_sum := by decide +kernel
theorem hdX8_sumOf : yX8_sumOf.cls ≠ "java/lang/invoke/MethodHandle" ∧ yX8_sumOf.cls ≠ "java/lang/invoke/VarHandle" ∧ (parseMethodDescriptor yX8_sumOf.desc).map (fun d => d.parameters.length) = some 1 := by decide +kernel
set_option maxHeartbeats 4000000 in
set_option maxRecDepth 100000 in
theorem qX8_sum {E : evT} {l : Launch} {D : va_G} {bd : Nat → Nat} {κ : Nat → ClassId} (hE : EvOk E) (p0 : Int32) (s : mS) {o : (Int32 × mS)} (h : fX8_sum p0 s = some o) : Ci l yX8_sum wsX8_sum rmX8_sum (mW bd κ) E D (tyA κ) .int [.ref (bd 67), .int p0] s (fun r s2 => o = (r, s2)) := by
  rw [fX8_sum] at h
  refine s_i (cc := cX8_sum) (nL := 2) (own := RX8) hE (mW_WA bd κ) (plainFor_of_name (by decide)) rfl rfl (Nat.le_of_ble_eq_true rfl) (fun Γ G hret => ?_)
  refine r_aload_n G 0 rfl rfl dX8_sum_0 ?_
  refine r_iload_n G 1 rfl rfl dX8_sum_1 ?_
  refine r_callSi G [.int p0] (qX8_isSet hE p0 _) gX8_sum_X8_isSet rfl hdX8_isSet ⟨Nat.le_of_ble_eq_true rfl, Nat.le_of_ble_eq_true rfl⟩ (Nat.le_of_ble_eq_true rfl) rfl ⟨Nat.le_of_ble_eq_true rfl, Nat.le_of_ble_eq_true rfl⟩ rfl rfl dX8_sum_2 (fun r1 s1 hp hn1 => ?_)
  obtain ⟨rfl, hs⟩ := hp
  have hs := hs.symm
  subst hs
  refine r_iconst G (v := 1) (by decide) dX8_sum_5 ?_
  obtain ⟨o2, e2, h⟩ := ob h
  refine r_callVi G [.int (fX8_isSet p0 s), .int 1] (qX8_passes hE (fX8_isSet p0 s) (1 : Int32) _ e2) ⟨67, 8, _, _, rfl, (mw_MO bd κ _), rfl⟩ gX8_sum_X8_passes rfl hdX8_passes ⟨Nat.le_of_ble_eq_true rfl, Nat.le_of_ble_eq_true rfl⟩ (Nat.le_of_ble_eq_true rfl) rfl ⟨Nat.le_of_ble_eq_true rfl, Nat.le_of_ble_eq_true rfl⟩ rfl rfl dX8_sum_6 (fun r2 s2 hp hn2 => ?_)
  subst hp
  try dsimp only at h
  refine r_if_eq G (tgt := 24) dX8_sum_9 (by decide) (fun c => ?_) (fun c => ?_)
  · rw [if_pos c] at h
    refine r_iconst G (v := 0) (by decide) dX8_sum_24 ?_
    exact hret _ _ _ _ _ _ dX8_sum_25 (Option.some.inj h).symm rfl (Nat.le_of_ble_eq_true rfl) (Nat.le_of_ble_eq_true rfl)
  · rw [if_neg c] at h
    refine r_aload_n G 0 rfl rfl dX8_sum_12 ?_
    refine r_get G (C := RX8) (T := TX8) (N := 19) kX8_sum_X8 67 (mw_MO bd κ _) rfl 1 (by decide) mX8_sum_f27 rfl rfl dX8_sum_13 ?_
    refine r_iload_n G 1 rfl rfl dX8_sum_16 ?_
    obtain ⟨g3, h⟩ := og h
    refine r_aldA G 68 5 (mw_SETSG bd κ _) rfl (vin_in g3) rfl dX8_sum_17 ?_
    obtain ⟨o4, e4, h⟩ := ob h
    refine r_callSi G [.ref (bd p0.toNatClampNeg)] (qX8_sumOf hE p0.toNatClampNeg (by have := vin_lt g3; omega) _ e4) gX8_sum_X8_sumOf rfl hdX8_sumOf ⟨Nat.le_of_ble_eq_true rfl, Nat.le_of_ble_eq_true rfl⟩ (Nat.le_of_ble_eq_true rfl) rfl ⟨Nat.le_of_ble_eq_true rfl, Nat.le_of_ble_eq_true rfl⟩ rfl rfl dX8_sum_18 (fun r4 s4 hp hn4 => ?_)
    subst hp
    try dsimp only at h
    refine r_goto G (tgt := 25) dX8_sum_21 (by decide) ?_
    exact hret _ _ _ _ _ _ dX8_sum_25 (Option.some.inj h).symm rfl (Nat.le_of_ble_eq_true rfl) (Nat.le_of_ble_eq_true rfl)
abbrev rmX8_clear : Room := { frames := 2, cells := 0, slots := 0, locals := 42 }
set_option maxRecDepth 20000 in
theorem kX8_clear_X8 : ∀ w ∈ u_ws RX8 TX8 19, w ∈ wsX8_clear := by decide +kernel
set_option maxRecDepth 20000 in
theorem mX8_clear_f27 : Cond.fieldLink RX8 27 "SetCouncilModel" "sets" "[[Z" ∈ wsX8_clear := by decide +kernel
theorem hdX8_joins : yX8_joins.cls ≠ "java/lang/invoke/MethodHandle" ∧ yX8_joins.cls ≠ "java/lang/invoke/VarHandle" ∧ (parseMethodDescriptor yX8_joins.desc).map (fun d => d.parameters.length) = some 4 := by decide +kernel
set_option maxHeartbeats 4000000 in
set_option maxRecDepth 100000 in
theorem qX8_clear {E : evT} {l : Launch} {D : va_G} {bd : Nat → Nat} {κ : Nat → ClassId} (hE : EvOk E) (p0 : Int32) (s : mS) {o : (Int32 × mS)} (h : fX8_clear p0 s = some o) : Ci l yX8_clear wsX8_clear rmX8_clear (mW bd κ) E D (tyA κ) .int [.ref (bd 67), .int p0] s (fun r s2 => o = (r, s2)) := by
  rw [fX8_clear] at h
  refine s_i (cc := cX8_clear) (nL := 3) (own := RX8) hE (mW_WA bd κ) (plainFor_of_name (by decide)) rfl rfl (Nat.le_of_ble_eq_true rfl) (fun Γ G hret => ?_)
  refine r_aload_n G 0 rfl rfl dX8_clear_0 ?_
  refine r_iload_n G 1 rfl rfl dX8_clear_1 ?_
  refine r_callSi G [.int p0] (qX8_isSet hE p0 _) gX8_clear_X8_isSet rfl hdX8_isSet ⟨Nat.le_of_ble_eq_true rfl, Nat.le_of_ble_eq_true rfl⟩ (Nat.le_of_ble_eq_true rfl) rfl ⟨Nat.le_of_ble_eq_true rfl, Nat.le_of_ble_eq_true rfl⟩ rfl rfl dX8_clear_2 (fun r1 s1 hp hn1 => ?_)
  obtain ⟨rfl, hs⟩ := hp
  have hs := hs.symm
  subst hs
  refine r_iconst G (v := 1) (by decide) dX8_clear_5 ?_
  obtain ⟨o2, e2, h⟩ := ob h
  refine r_callVi G [.int (fX8_isSet p0 s), .int 1] (qX8_passes hE (fX8_isSet p0 s) (1 : Int32) _ e2) ⟨67, 8, _, _, rfl, (mw_MO bd κ _), rfl⟩ gX8_clear_X8_passes rfl hdX8_passes ⟨Nat.le_of_ble_eq_true rfl, Nat.le_of_ble_eq_true rfl⟩ (Nat.le_of_ble_eq_true rfl) rfl ⟨Nat.le_of_ble_eq_true rfl, Nat.le_of_ble_eq_true rfl⟩ rfl rfl dX8_clear_6 (fun r2 s2 hp hn2 => ?_)
  subst hp
  try dsimp only at h
  refine r_if_ne G (tgt := 14) dX8_clear_9 (by decide) (fun c => ?_) (fun c => ?_)
  · rw [if_neg c] at h
    refine r_aload_n G 0 rfl rfl dX8_clear_14 ?_
    refine r_get G (C := RX8) (T := TX8) (N := 19) kX8_clear_X8 67 (mw_MO bd κ _) rfl 1 (by decide) mX8_clear_f27 rfl rfl dX8_clear_15 ?_
    refine r_iload_n G 1 rfl rfl dX8_clear_18 ?_
    obtain ⟨g3, h⟩ := og h
    refine r_aldA G 68 5 (mw_SETSG bd κ _) rfl (vin_in g3) rfl dX8_clear_19 ?_
    obtain ⟨o4, e4, h⟩ := ob h
    refine r_callSi G [.ref (bd p0.toNatClampNeg)] (qX8_sizeOf hE p0.toNatClampNeg (by have := vin_lt g3; omega) _ e4) gX8_clear_X8_sizeOf rfl hdX8_sizeOf ⟨Nat.le_of_ble_eq_true rfl, Nat.le_of_ble_eq_true rfl⟩ (Nat.le_of_ble_eq_true rfl) rfl ⟨Nat.le_of_ble_eq_true rfl, Nat.le_of_ble_eq_true rfl⟩ rfl rfl dX8_clear_20 (fun r4 s4 hp hn4 => ?_)
    subst hp
    try dsimp only at h
    refine r_istore_n G (lv' := [(0, .ref (bd 67)), (1, .int p0), (2, .int r4)]) [1, 2, 0] rfl rfl (by decide) dX8_clear_23 ?_
    refine r_aload_n G 0 rfl rfl dX8_clear_24 ?_
    refine r_get G (C := RX8) (T := TX8) (N := 19) kX8_clear_X8 67 (mw_MO bd κ _) rfl 1 (by decide) mX8_clear_f27 rfl rfl dX8_clear_25 ?_
    refine r_iload_n G 1 rfl rfl dX8_clear_28 ?_
    obtain ⟨g5, h⟩ := og h
    refine r_aldA G 68 5 (mw_SETSG bd κ _) rfl (vin_in g5) rfl dX8_clear_29 ?_
    refine r_aload_n G 0 rfl rfl dX8_clear_30 ?_
    refine r_get G (C := RX8) (T := TX8) (N := 19) kX8_clear_X8 67 (mw_MO bd κ _) rfl 1 (by decide) mX8_clear_f27 rfl rfl dX8_clear_31 ?_
    refine r_iload_n G 1 rfl rfl dX8_clear_34 ?_
    obtain ⟨g6, h⟩ := og h
    refine r_aldA G 68 5 (mw_SETSG bd κ _) rfl (vin_in g6) rfl dX8_clear_35 ?_
    refine r_iconst G (v := 2) (by decide) dX8_clear_36 ?_
    refine r_aload_n G 0 rfl rfl dX8_clear_37 ?_
    refine r_get G (C := RX8) (T := TX8) (N := 19) kX8_clear_X8 67 (mw_MO bd κ _) rfl 1 (by decide) mX8_clear_f27 rfl rfl dX8_clear_38 ?_
    refine r_iload_n G 1 rfl rfl dX8_clear_41 ?_
    obtain ⟨g7, h⟩ := og h
    refine r_aldA G 68 5 (mw_SETSG bd κ _) rfl (vin_in g7) rfl dX8_clear_42 ?_
    obtain ⟨o8, e8, h⟩ := ob h
    refine r_callSv G [.ref (bd p0.toNatClampNeg), .ref (bd p0.toNatClampNeg), .int 2, .ref (bd p0.toNatClampNeg)] (qX8_joins hE p0.toNatClampNeg (by have := vin_lt g5; omega) p0.toNatClampNeg (by have := vin_lt g6; omega) (2 : Int32) p0.toNatClampNeg (by have := vin_lt g7; omega) _ e8) gX8_clear_X8_joins rfl hdX8_joins ⟨Nat.le_of_ble_eq_true rfl, Nat.le_of_ble_eq_true rfl⟩ (Nat.le_of_ble_eq_true rfl) rfl ⟨Nat.le_of_ble_eq_true rfl, Nat.le_of_ble_eq_true rfl⟩ rfl rfl dX8_clear_43 (fun s8 hp => ?_)
    have hp := hp.symm
    subst hp
    try dsimp only at h
    refine r_iload_n G 2 rfl rfl dX8_clear_46 ?_
    exact hret _ _ _ _ _ _ dX8_clear_47 (Option.some.inj h).symm rfl (Nat.le_of_ble_eq_true rfl) (Nat.le_of_ble_eq_true rfl)
  · rw [if_pos c] at h
    refine r_iconst G (v := 0) (by decide) dX8_clear_12 ?_
    exact hret _ _ _ _ _ _ dX8_clear_13 (Option.some.inj h).symm rfl (Nat.le_of_ble_eq_true rfl) (Nat.le_of_ble_eq_true rfl)
abbrev rmX8_fill : Room := { frames := 2, cells := 0, slots := 0, locals := 45 }
set_option maxHeartbeats 4000000 in
set_option maxRecDepth 100000 in
theorem wX8_fill_L57 {E : evT} {l : Launch} {D : va_G} {bd : Nat → Nat} {κ : Nat → ClassId} (hE : EvOk E) {Γ : cxT} (G : Cx (mW bd κ) D (tyA κ) E l Γ cX8_fill RX8 wsX8_fill 8 rmX8_fill) (x1 : Int32) (x2 : Int32) (x3 : Int32) (x4 : Int32) {o : (Int32 × mS)} (hret : ∀ (st2 : mS) (v : Int32) (cells slots pc : Nat) (lv : List (Nat × Value)), decode cX8_fill pc = .ok (.ireturn, 1) → o = (v, st2) → narrow .int (.int v) = .int v → cells ≤ rmX8_fill.cells → slots ≤ rmX8_fill.slots → V (mW bd κ) D Γ st2 cells slots pc lv [.int v]) : ∀ (fuel : Nat) (x5 : Int32) (x6 : Int32) (s : mS), fX8_fill_L57 x1 x2 x3 x4 fuel x5 x6 s = some o → V (mW bd κ) D Γ s 0 0 57 [(0, .ref (bd 67)), (1, .int x1), (2, .int x2), (3, .int x3), (4, .int x4), (5, .int x5), (6, .int x6)] [] := by
  intro fuel
  induction fuel with
  | zero =>
    intro _ _ _ h
    have h : none = some o := h
    cases h
  | succ fuel ih =>
    intro x5 x6 s h
    rw [fX8_fill_L57] at h
    refine r_iload G 6 rfl dX8_fill_57 ?_
    refine r_iload G 4 rfl dX8_fill_59 ?_
    refine r_icmp_ge G (tgt := 111) dX8_fill_61 (by decide) (fun c => ?_) (fun c => ?_)
    · rw [if_pos c] at h
      refine r_iload G 5 rfl dX8_fill_111 ?_
      exact hret _ _ _ _ _ _ dX8_fill_113 (Option.some.inj h).symm rfl (Nat.le_of_ble_eq_true rfl) (Nat.le_of_ble_eq_true rfl)
    · rw [if_neg c] at h
      refine r_iload_n G 2 rfl rfl dX8_fill_64 ?_
      refine r_iload G 6 rfl dX8_fill_65 ?_
      refine r_iload_n G 3 rfl rfl dX8_fill_67 ?_
      refine r_imul G dX8_fill_68 ?_
      refine r_iadd G dX8_fill_69 ?_
      refine r_istore G (lv' := [(0, .ref (bd 67)), (1, .int x1), (2, .int x2), (3, .int x3), (4, .int x4), (5, .int x5), (6, .int x6), (7, .int (x2 + (x6 * x3)))]) [1, 2, 3, 4, 5, 6, 7, 0] rfl (by decide) dX8_fill_70 ?_
      refine r_iload G 5 rfl dX8_fill_72 ?_
      refine r_iload G 7 rfl dX8_fill_74 ?_
      refine r_bipush G (v := (-50)) (by decide) dX8_fill_76 ?_
      refine r_bipush G (v := 50) (by decide) dX8_fill_78 ?_
      refine r_callSi G [.int (x2 + (x6 * x3)), .int (-50), .int 50] (qX8_in hE (x2 + (x6 * x3)) (-50 : Int32) (50 : Int32) _) gX8_fill_X8_in rfl hdX8_in ⟨Nat.le_of_ble_eq_true rfl, Nat.le_of_ble_eq_true rfl⟩ (Nat.le_of_ble_eq_true rfl) rfl ⟨Nat.le_of_ble_eq_true rfl, Nat.le_of_ble_eq_true rfl⟩ rfl rfl dX8_fill_80 (fun r4 s4 hp hn4 => ?_)
      obtain ⟨rfl, hs⟩ := hp
      have hs := hs.symm
      subst hs
      refine r_if_eq G (tgt := 101) dX8_fill_83 (by decide) (fun c => ?_) (fun c => ?_)
      · rw [if_pos c] at h
        refine r_iconst G (v := 0) (by decide) dX8_fill_101 ?_
        refine r_iadd G dX8_fill_102 ?_
        refine r_istore G (lv' := [(0, .ref (bd 67)), (1, .int x1), (2, .int x2), (3, .int x3), (4, .int x4), (5, .int (x5 + 0)), (6, .int x6)]) [1, 2, 3, 4, 5, 0, 6] rfl (by decide) dX8_fill_103 ?_
        refine r_iinc G (j := 6) rfl (v := x6 + 1) (lv' := [(0, .ref (bd 67)), (1, .int x1), (2, .int x2), (3, .int x3), (4, .int x4), (5, .int (x5 + 0)), (6, .int (x6 + 1))]) rfl [1, 2, 3, 4, 5, 6, 0] rfl (by decide) dX8_fill_105 ?_
        refine r_goto G (tgt := 57) dX8_fill_108 (by decide) ?_
        exact ih _ _ _ h
      · rw [if_neg c] at h
        refine r_aload_n G 0 rfl rfl dX8_fill_86 ?_
        refine r_iload_n G 1 rfl rfl dX8_fill_87 ?_
        refine r_iload G 7 rfl dX8_fill_88 ?_
        refine r_iconst G (v := 1) (by decide) dX8_fill_90 ?_
        obtain ⟨o5, e5, h⟩ := ob h
        refine r_callVi G [.int x1, .int (x2 + (x6 * x3)), .int 1] (qX8_puts hE x1 (x2 + (x6 * x3)) (1 : Int32) _ e5) ⟨67, 8, _, _, rfl, (mw_MO bd κ _), rfl⟩ gX8_fill_X8_puts rfl hdX8_puts ⟨Nat.le_of_ble_eq_true rfl, Nat.le_of_ble_eq_true rfl⟩ (Nat.le_of_ble_eq_true rfl) rfl ⟨Nat.le_of_ble_eq_true rfl, Nat.le_of_ble_eq_true rfl⟩ rfl rfl dX8_fill_91 (fun r5 s5 hp hn5 => ?_)
        subst hp
        try dsimp only at h
        refine r_if_eq G (tgt := 101) dX8_fill_94 (by decide) (fun c => ?_) (fun c => ?_)
        · rw [if_pos c] at h
          refine r_iconst G (v := 0) (by decide) dX8_fill_101 ?_
          refine r_iadd G dX8_fill_102 ?_
          refine r_istore G (lv' := [(0, .ref (bd 67)), (1, .int x1), (2, .int x2), (3, .int x3), (4, .int x4), (5, .int (x5 + 0)), (6, .int x6)]) [1, 2, 3, 4, 5, 0, 6] rfl (by decide) dX8_fill_103 ?_
          refine r_iinc G (j := 6) rfl (v := x6 + 1) (lv' := [(0, .ref (bd 67)), (1, .int x1), (2, .int x2), (3, .int x3), (4, .int x4), (5, .int (x5 + 0)), (6, .int (x6 + 1))]) rfl [1, 2, 3, 4, 5, 6, 0] rfl (by decide) dX8_fill_105 ?_
          refine r_goto G (tgt := 57) dX8_fill_108 (by decide) ?_
          exact ih _ _ _ h
        · rw [if_neg c] at h
          refine r_iconst G (v := 1) (by decide) dX8_fill_97 ?_
          refine r_goto G (tgt := 102) dX8_fill_98 (by decide) ?_
          refine r_iadd G dX8_fill_102 ?_
          refine r_istore G (lv' := [(0, .ref (bd 67)), (1, .int x1), (2, .int x2), (3, .int x3), (4, .int x4), (5, .int (x5 + 1)), (6, .int x6)]) [1, 2, 3, 4, 5, 0, 6] rfl (by decide) dX8_fill_103 ?_
          refine r_iinc G (j := 6) rfl (v := x6 + 1) (lv' := [(0, .ref (bd 67)), (1, .int x1), (2, .int x2), (3, .int x3), (4, .int x4), (5, .int (x5 + 1)), (6, .int (x6 + 1))]) rfl [1, 2, 3, 4, 5, 6, 0] rfl (by decide) dX8_fill_105 ?_
          refine r_goto G (tgt := 57) dX8_fill_108 (by decide) ?_
          exact ih _ _ _ h
set_option maxHeartbeats 4000000 in
set_option maxRecDepth 100000 in
theorem qX8_fill {E : evT} {l : Launch} {D : va_G} {bd : Nat → Nat} {κ : Nat → ClassId} (hE : EvOk E) (p0 : Int32) (p1 : Int32) (p2 : Int32) (p3 : Int32) (s : mS) {o : (Int32 × mS)} (h : fX8_fill p0 p1 p2 p3 s = some o) : Ci l yX8_fill wsX8_fill rmX8_fill (mW bd κ) E D (tyA κ) .int [.ref (bd 67), .int p0, .int p1, .int p2, .int p3] s (fun r s2 => o = (r, s2)) := by
  rw [fX8_fill] at h
  refine s_i (cc := cX8_fill) (nL := 8) (own := RX8) hE (mW_WA bd κ) (plainFor_of_name (by decide)) rfl rfl (Nat.le_of_ble_eq_true rfl) (fun Γ G hret => ?_)
  refine r_aload_n G 0 rfl rfl dX8_fill_0 ?_
  refine r_iload_n G 1 rfl rfl dX8_fill_1 ?_
  refine r_callSi G [.int p0] (qX8_isSet hE p0 _) gX8_fill_X8_isSet rfl hdX8_isSet ⟨Nat.le_of_ble_eq_true rfl, Nat.le_of_ble_eq_true rfl⟩ (Nat.le_of_ble_eq_true rfl) rfl ⟨Nat.le_of_ble_eq_true rfl, Nat.le_of_ble_eq_true rfl⟩ rfl rfl dX8_fill_2 (fun r1 s1 hp hn1 => ?_)
  obtain ⟨rfl, hs⟩ := hp
  have hs := hs.symm
  subst hs
  refine r_iload_n G 2 rfl rfl dX8_fill_5 ?_
  refine r_bipush G (v := (-50)) (by decide) dX8_fill_6 ?_
  refine r_bipush G (v := 50) (by decide) dX8_fill_8 ?_
  refine r_callSi G [.int p1, .int (-50), .int 50] (qX8_in hE p1 (-50 : Int32) (50 : Int32) _) gX8_fill_X8_in rfl hdX8_in ⟨Nat.le_of_ble_eq_true rfl, Nat.le_of_ble_eq_true rfl⟩ (Nat.le_of_ble_eq_true rfl) rfl ⟨Nat.le_of_ble_eq_true rfl, Nat.le_of_ble_eq_true rfl⟩ rfl rfl dX8_fill_10 (fun r2 s2 hp hn2 => ?_)
  obtain ⟨rfl, hs⟩ := hp
  have hs := hs.symm
  subst hs
  refine r_if_eq G (tgt := 42) dX8_fill_13 (by decide) (fun c => ?_) (fun c => ?_)
  · rw [if_pos c] at h
    refine r_iconst G (v := 0) (by decide) dX8_fill_42 ?_
    obtain ⟨o3, e3, h⟩ := ob h
    refine r_callVi G [.int (fX8_isSet p0 s), .int 0] (qX8_passes hE (fX8_isSet p0 s) (0 : Int32) _ e3) ⟨67, 8, _, _, rfl, (mw_MO bd κ _), rfl⟩ gX8_fill_X8_passes rfl hdX8_passes ⟨Nat.le_of_ble_eq_true rfl, Nat.le_of_ble_eq_true rfl⟩ (Nat.le_of_ble_eq_true rfl) rfl ⟨Nat.le_of_ble_eq_true rfl, Nat.le_of_ble_eq_true rfl⟩ rfl rfl dX8_fill_43 (fun r3 s3 hp hn3 => ?_)
    subst hp
    try dsimp only at h
    refine r_if_ne G (tgt := 51) dX8_fill_46 (by decide) (fun c => ?_) (fun c => ?_)
    · rw [if_neg c] at h
      refine r_iconst G (v := 0) (by decide) dX8_fill_51 ?_
      refine r_istore G (lv' := [(0, .ref (bd 67)), (1, .int p0), (2, .int p1), (3, .int p2), (4, .int p3), (5, .int 0)]) [1, 2, 3, 4, 5, 0] rfl (by decide) dX8_fill_52 ?_
      refine r_iconst G (v := 0) (by decide) dX8_fill_54 ?_
      refine r_istore G (lv' := [(0, .ref (bd 67)), (1, .int p0), (2, .int p1), (3, .int p2), (4, .int p3), (5, .int 0), (6, .int 0)]) [1, 2, 3, 4, 5, 6, 0] rfl (by decide) dX8_fill_55 ?_
      refine wX8_fill_L57 hE G _ _ _ _ hret 1100 _ _ _ h
    · rw [if_pos c] at h
      refine r_iconst G (v := 0) (by decide) dX8_fill_49 ?_
      exact hret _ _ _ _ _ _ dX8_fill_50 (Option.some.inj h).symm rfl (Nat.le_of_ble_eq_true rfl) (Nat.le_of_ble_eq_true rfl)
  · rw [if_neg c] at h
    refine r_iload_n G 3 rfl rfl dX8_fill_16 ?_
    refine r_bipush G (v := (-100)) (by decide) dX8_fill_17 ?_
    refine r_bipush G (v := 100) (by decide) dX8_fill_19 ?_
    refine r_callSi G [.int p2, .int (-100), .int 100] (qX8_in hE p2 (-100 : Int32) (100 : Int32) _) gX8_fill_X8_in rfl hdX8_in ⟨Nat.le_of_ble_eq_true rfl, Nat.le_of_ble_eq_true rfl⟩ (Nat.le_of_ble_eq_true rfl) rfl ⟨Nat.le_of_ble_eq_true rfl, Nat.le_of_ble_eq_true rfl⟩ rfl rfl dX8_fill_21 (fun r6 s6 hp hn6 => ?_)
    obtain ⟨rfl, hs⟩ := hp
    have hs := hs.symm
    subst hs
    refine r_if_eq G (tgt := 42) dX8_fill_24 (by decide) (fun c => ?_) (fun c => ?_)
    · rw [if_pos c] at h
      refine r_iconst G (v := 0) (by decide) dX8_fill_42 ?_
      obtain ⟨o7, e7, h⟩ := ob h
      refine r_callVi G [.int (fX8_isSet p0 s), .int 0] (qX8_passes hE (fX8_isSet p0 s) (0 : Int32) _ e7) ⟨67, 8, _, _, rfl, (mw_MO bd κ _), rfl⟩ gX8_fill_X8_passes rfl hdX8_passes ⟨Nat.le_of_ble_eq_true rfl, Nat.le_of_ble_eq_true rfl⟩ (Nat.le_of_ble_eq_true rfl) rfl ⟨Nat.le_of_ble_eq_true rfl, Nat.le_of_ble_eq_true rfl⟩ rfl rfl dX8_fill_43 (fun r7 s7 hp hn7 => ?_)
      subst hp
      try dsimp only at h
      refine r_if_ne G (tgt := 51) dX8_fill_46 (by decide) (fun c => ?_) (fun c => ?_)
      · rw [if_neg c] at h
        refine r_iconst G (v := 0) (by decide) dX8_fill_51 ?_
        refine r_istore G (lv' := [(0, .ref (bd 67)), (1, .int p0), (2, .int p1), (3, .int p2), (4, .int p3), (5, .int 0)]) [1, 2, 3, 4, 5, 0] rfl (by decide) dX8_fill_52 ?_
        refine r_iconst G (v := 0) (by decide) dX8_fill_54 ?_
        refine r_istore G (lv' := [(0, .ref (bd 67)), (1, .int p0), (2, .int p1), (3, .int p2), (4, .int p3), (5, .int 0), (6, .int 0)]) [1, 2, 3, 4, 5, 6, 0] rfl (by decide) dX8_fill_55 ?_
        refine wX8_fill_L57 hE G _ _ _ _ hret 1100 _ _ _ h
      · rw [if_pos c] at h
        refine r_iconst G (v := 0) (by decide) dX8_fill_49 ?_
        exact hret _ _ _ _ _ _ dX8_fill_50 (Option.some.inj h).symm rfl (Nat.le_of_ble_eq_true rfl) (Nat.le_of_ble_eq_true rfl)
    · rw [if_neg c] at h
      refine r_iload G 4 rfl dX8_fill_27 ?_
      refine r_iconst G (v := 0) (by decide) dX8_fill_29 ?_
      refine r_bipush G (v := 101) (by decide) dX8_fill_30 ?_
      refine r_callSi G [.int p3, .int 0, .int 101] (qX8_in hE p3 (0 : Int32) (101 : Int32) _) gX8_fill_X8_in rfl hdX8_in ⟨Nat.le_of_ble_eq_true rfl, Nat.le_of_ble_eq_true rfl⟩ (Nat.le_of_ble_eq_true rfl) rfl ⟨Nat.le_of_ble_eq_true rfl, Nat.le_of_ble_eq_true rfl⟩ rfl rfl dX8_fill_32 (fun r8 s8 hp hn8 => ?_)
      obtain ⟨rfl, hs⟩ := hp
      have hs := hs.symm
      subst hs
      refine r_if_eq G (tgt := 42) dX8_fill_35 (by decide) (fun c => ?_) (fun c => ?_)
      · rw [if_pos c] at h
        refine r_iconst G (v := 0) (by decide) dX8_fill_42 ?_
        obtain ⟨o9, e9, h⟩ := ob h
        refine r_callVi G [.int (fX8_isSet p0 s), .int 0] (qX8_passes hE (fX8_isSet p0 s) (0 : Int32) _ e9) ⟨67, 8, _, _, rfl, (mw_MO bd κ _), rfl⟩ gX8_fill_X8_passes rfl hdX8_passes ⟨Nat.le_of_ble_eq_true rfl, Nat.le_of_ble_eq_true rfl⟩ (Nat.le_of_ble_eq_true rfl) rfl ⟨Nat.le_of_ble_eq_true rfl, Nat.le_of_ble_eq_true rfl⟩ rfl rfl dX8_fill_43 (fun r9 s9 hp hn9 => ?_)
        subst hp
        try dsimp only at h
        refine r_if_ne G (tgt := 51) dX8_fill_46 (by decide) (fun c => ?_) (fun c => ?_)
        · rw [if_neg c] at h
          refine r_iconst G (v := 0) (by decide) dX8_fill_51 ?_
          refine r_istore G (lv' := [(0, .ref (bd 67)), (1, .int p0), (2, .int p1), (3, .int p2), (4, .int p3), (5, .int 0)]) [1, 2, 3, 4, 5, 0] rfl (by decide) dX8_fill_52 ?_
          refine r_iconst G (v := 0) (by decide) dX8_fill_54 ?_
          refine r_istore G (lv' := [(0, .ref (bd 67)), (1, .int p0), (2, .int p1), (3, .int p2), (4, .int p3), (5, .int 0), (6, .int 0)]) [1, 2, 3, 4, 5, 6, 0] rfl (by decide) dX8_fill_55 ?_
          refine wX8_fill_L57 hE G _ _ _ _ hret 1100 _ _ _ h
        · rw [if_pos c] at h
          refine r_iconst G (v := 0) (by decide) dX8_fill_49 ?_
          exact hret _ _ _ _ _ _ dX8_fill_50 (Option.some.inj h).symm rfl (Nat.le_of_ble_eq_true rfl) (Nat.le_of_ble_eq_true rfl)
      · rw [if_neg c] at h
        refine r_iconst G (v := 1) (by decide) dX8_fill_38 ?_
        refine r_goto G (tgt := 43) dX8_fill_39 (by decide) ?_
        obtain ⟨o10, e10, h⟩ := ob h
        refine r_callVi G [.int (fX8_isSet p0 s), .int 1] (qX8_passes hE (fX8_isSet p0 s) (1 : Int32) _ e10) ⟨67, 8, _, _, rfl, (mw_MO bd κ _), rfl⟩ gX8_fill_X8_passes rfl hdX8_passes ⟨Nat.le_of_ble_eq_true rfl, Nat.le_of_ble_eq_true rfl⟩ (Nat.le_of_ble_eq_true rfl) rfl ⟨Nat.le_of_ble_eq_true rfl, Nat.le_of_ble_eq_true rfl⟩ rfl rfl dX8_fill_43 (fun r10 s10 hp hn10 => ?_)
        subst hp
        try dsimp only at h
        refine r_if_ne G (tgt := 51) dX8_fill_46 (by decide) (fun c => ?_) (fun c => ?_)
        · rw [if_neg c] at h
          refine r_iconst G (v := 0) (by decide) dX8_fill_51 ?_
          refine r_istore G (lv' := [(0, .ref (bd 67)), (1, .int p0), (2, .int p1), (3, .int p2), (4, .int p3), (5, .int 0)]) [1, 2, 3, 4, 5, 0] rfl (by decide) dX8_fill_52 ?_
          refine r_iconst G (v := 0) (by decide) dX8_fill_54 ?_
          refine r_istore G (lv' := [(0, .ref (bd 67)), (1, .int p0), (2, .int p1), (3, .int p2), (4, .int p3), (5, .int 0), (6, .int 0)]) [1, 2, 3, 4, 5, 6, 0] rfl (by decide) dX8_fill_55 ?_
          refine wX8_fill_L57 hE G _ _ _ _ hret 1100 _ _ _ h
        · rw [if_pos c] at h
          refine r_iconst G (v := 0) (by decide) dX8_fill_49 ?_
          exact hret _ _ _ _ _ _ dX8_fill_50 (Option.some.inj h).symm rfl (Nat.le_of_ble_eq_true rfl) (Nat.le_of_ble_eq_true rfl)
abbrev rmX8_placeAt : Room := { frames := 0, cells := 0, slots := 0, locals := 0 }
set_option maxHeartbeats 4000000 in
set_option maxRecDepth 100000 in
theorem wX8_placeAt_L4 {E : evT} {l : Launch} {D : va_G} {bd : Nat → Nat} {κ : Nat → ClassId} (hE : EvOk E) {Γ : cxT} (G : Cx (mW bd κ) D (tyA κ) E l Γ cX8_placeAt RX8 wsX8_placeAt 4 rmX8_placeAt) (z0 : Nat) (hz0 : z0 < 67) {o : (Int32 × mS)} (hret : ∀ (st2 : mS) (v : Int32) (cells slots pc : Nat) (lv : List (Nat × Value)), decode cX8_placeAt pc = .ok (.ireturn, 1) → o = (v, st2) → narrow .int (.int v) = .int v → cells ≤ rmX8_placeAt.cells → slots ≤ rmX8_placeAt.slots → V (mW bd κ) D Γ st2 cells slots pc lv [.int v]) : ∀ (fuel : Nat) (x2 : Int32) (x3 : Int32) (s : mS), fX8_placeAt_L4 z0 fuel x2 x3 s = some o → V (mW bd κ) D Γ s 0 0 4 [(0, .ref (bd z0)), (2, .int x2), (3, .int x3)] [] := by
  intro fuel
  induction fuel with
  | zero =>
    intro _ _ _ h
    have h : none = some o := h
    cases h
  | succ fuel ih =>
    intro x2 x3 s h
    rw [fX8_placeAt_L4] at h
    refine r_iload_n G 2 rfl rfl dX8_placeAt_4 ?_
    refine r_bipush G (v := 102) (by decide) dX8_placeAt_5 ?_
    refine r_icmp_ge G (tgt := 40) dX8_placeAt_7 (by decide) (fun c => ?_) (fun c => ?_)
    · rw [if_pos c] at h
      refine r_iload_n G 2 rfl rfl dX8_placeAt_40 ?_
      exact hret _ _ _ _ _ _ dX8_placeAt_41 (Option.some.inj h).symm rfl (Nat.le_of_ble_eq_true rfl) (Nat.le_of_ble_eq_true rfl)
    · rw [if_neg c] at h
      refine r_aload_n G 0 rfl rfl dX8_placeAt_10 ?_
      refine r_iload_n G 2 rfl rfl dX8_placeAt_11 ?_
      obtain ⟨g1, h⟩ := og h
      refine r_zald G z0 4 (mw_ROW bd κ _ hz0) rfl (vin_in g1) dX8_placeAt_12 ?_
      refine r_if_eq G (tgt := 20) dX8_placeAt_13 (by decide) (fun c => ?_) (fun c => ?_)
      · rw [if_pos c] at h
        refine r_iload_n G 1 rfl rfl dX8_placeAt_20 ?_
        refine r_aload_n G 0 rfl rfl dX8_placeAt_21 ?_
        refine r_iload_n G 2 rfl rfl dX8_placeAt_22 ?_
        obtain ⟨g2, h⟩ := og h
        refine r_zald G z0 4 (mw_ROW bd κ _ hz0) rfl (vin_in g2) dX8_placeAt_23 ?_
        refine r_if_eq G (tgt := 31) dX8_placeAt_24 (by decide) (fun c => ?_) (fun c => ?_)
        · rw [if_pos c] at h
          refine r_iconst G (v := 0) (by decide) dX8_placeAt_31 ?_
          refine r_isub G dX8_placeAt_32 ?_
          refine r_istore_n G (lv' := [(0, .ref (bd z0)), (2, .int (x2 - 0)), (3, .int x3)]) [1, 0, 2] rfl rfl (by decide) dX8_placeAt_33 ?_
          refine r_iinc G (j := 2) rfl (v := x3 + 1) (lv' := [(0, .ref (bd z0)), (2, .int (x2 - 0)), (3, .int (x3 + 1))]) rfl [1, 2, 0] rfl (by decide) dX8_placeAt_34 ?_
          refine r_goto G (tgt := 4) dX8_placeAt_37 (by decide) ?_
          exact ih _ _ _ h
        · rw [if_neg c] at h
          refine r_iconst G (v := 1) (by decide) dX8_placeAt_27 ?_
          refine r_goto G (tgt := 32) dX8_placeAt_28 (by decide) ?_
          refine r_isub G dX8_placeAt_32 ?_
          refine r_istore_n G (lv' := [(0, .ref (bd z0)), (2, .int (x2 - 1)), (3, .int x3)]) [1, 0, 2] rfl rfl (by decide) dX8_placeAt_33 ?_
          refine r_iinc G (j := 2) rfl (v := x3 + 1) (lv' := [(0, .ref (bd z0)), (2, .int (x2 - 1)), (3, .int (x3 + 1))]) rfl [1, 2, 0] rfl (by decide) dX8_placeAt_34 ?_
          refine r_goto G (tgt := 4) dX8_placeAt_37 (by decide) ?_
          exact ih _ _ _ h
      · rw [if_neg c] at h
        refine r_iload_n G 1 rfl rfl dX8_placeAt_16 ?_
        refine r_if_le G (tgt := 40) dX8_placeAt_17 (by decide) (fun c => ?_) (fun c => ?_)
        · rw [if_pos c] at h
          refine r_iload_n G 2 rfl rfl dX8_placeAt_40 ?_
          exact hret _ _ _ _ _ _ dX8_placeAt_41 (Option.some.inj h).symm rfl (Nat.le_of_ble_eq_true rfl) (Nat.le_of_ble_eq_true rfl)
        · rw [if_neg c] at h
          refine r_iload_n G 1 rfl rfl dX8_placeAt_20 ?_
          refine r_aload_n G 0 rfl rfl dX8_placeAt_21 ?_
          refine r_iload_n G 2 rfl rfl dX8_placeAt_22 ?_
          obtain ⟨g3, h⟩ := og h
          refine r_zald G z0 4 (mw_ROW bd κ _ hz0) rfl (vin_in g3) dX8_placeAt_23 ?_
          refine r_if_eq G (tgt := 31) dX8_placeAt_24 (by decide) (fun c => ?_) (fun c => ?_)
          · rw [if_pos c] at h
            refine r_iconst G (v := 0) (by decide) dX8_placeAt_31 ?_
            refine r_isub G dX8_placeAt_32 ?_
            refine r_istore_n G (lv' := [(0, .ref (bd z0)), (2, .int (x2 - 0)), (3, .int x3)]) [1, 0, 2] rfl rfl (by decide) dX8_placeAt_33 ?_
            refine r_iinc G (j := 2) rfl (v := x3 + 1) (lv' := [(0, .ref (bd z0)), (2, .int (x2 - 0)), (3, .int (x3 + 1))]) rfl [1, 2, 0] rfl (by decide) dX8_placeAt_34 ?_
            refine r_goto G (tgt := 4) dX8_placeAt_37 (by decide) ?_
            exact ih _ _ _ h
          · rw [if_neg c] at h
            refine r_iconst G (v := 1) (by decide) dX8_placeAt_27 ?_
            refine r_goto G (tgt := 32) dX8_placeAt_28 (by decide) ?_
            refine r_isub G dX8_placeAt_32 ?_
            refine r_istore_n G (lv' := [(0, .ref (bd z0)), (2, .int (x2 - 1)), (3, .int x3)]) [1, 0, 2] rfl rfl (by decide) dX8_placeAt_33 ?_
            refine r_iinc G (j := 2) rfl (v := x3 + 1) (lv' := [(0, .ref (bd z0)), (2, .int (x2 - 1)), (3, .int (x3 + 1))]) rfl [1, 2, 0] rfl (by decide) dX8_placeAt_34 ?_
            refine r_goto G (tgt := 4) dX8_placeAt_37 (by decide) ?_
            exact ih _ _ _ h
set_option maxHeartbeats 4000000 in
set_option maxRecDepth 100000 in
theorem qX8_placeAt {E : evT} {l : Launch} {D : va_G} {bd : Nat → Nat} {κ : Nat → ClassId} (hE : EvOk E) (p0 : Nat) (hp0 : p0 < 67) (p1 : Int32) (s : mS) {o : (Int32 × mS)} (h : fX8_placeAt p0 p1 s = some o) : Ci l yX8_placeAt wsX8_placeAt rmX8_placeAt (mW bd κ) E D (tyA κ) .int [.ref (bd p0), .int p1] s (fun r s2 => o = (r, s2)) := by
  rw [fX8_placeAt] at h
  refine s_i (cc := cX8_placeAt) (nL := 4) (own := RX8) hE (mW_WA bd κ) (plainFor_of_name (by decide)) rfl rfl (Nat.le_of_ble_eq_true rfl) (fun Γ G hret => ?_)
  refine r_iload_n G 1 rfl rfl dX8_placeAt_0 ?_
  refine r_istore_n G (lv' := [(0, .ref (bd p0)), (2, .int p1)]) [1, 0] rfl rfl (by decide) dX8_placeAt_1 ?_
  refine r_iconst G (v := 0) (by decide) dX8_placeAt_2 ?_
  refine r_istore_n G (lv' := [(0, .ref (bd p0)), (2, .int p1), (3, .int 0)]) [1, 2, 0] rfl rfl (by decide) dX8_placeAt_3 ?_
  refine wX8_placeAt_L4 hE G _ hp0 hret 1100 _ _ _ h
abbrev rmX8_memberAt : Room := { frames := 2, cells := 0, slots := 0, locals := 42 }
set_option maxRecDepth 20000 in
theorem kX8_memberAt_X8 : ∀ w ∈ u_ws RX8 TX8 19, w ∈ wsX8_memberAt := by decide +kernel
set_option maxRecDepth 20000 in
theorem mX8_memberAt_f27 : Cond.fieldLink RX8 27 "SetCouncilModel" "sets" "[[Z" ∈ wsX8_memberAt := by decide +kernel
theorem hdX8_placeAt : yX8_placeAt.cls ≠ "java/lang/invoke/MethodHandle" ∧ yX8_placeAt.cls ≠ "java/lang/invoke/VarHandle" ∧ (parseMethodDescriptor yX8_placeAt.desc).map (fun d => d.parameters.length) = some 2 := by decide +kernel
set_option maxHeartbeats 4000000 in
set_option maxRecDepth 100000 in
theorem qX8_memberAt {E : evT} {l : Launch} {D : va_G} {bd : Nat → Nat} {κ : Nat → ClassId} (hE : EvOk E) (p0 : Int32) (p1 : Int32) (s : mS) {o : (Int32 × mS)} (h : fX8_memberAt p0 p1 s = some o) : Ci l yX8_memberAt wsX8_memberAt rmX8_memberAt (mW bd κ) E D (tyA κ) .int [.ref (bd 67), .int p0, .int p1] s (fun r s2 => o = (r, s2)) := by
  rw [fX8_memberAt] at h
  refine s_i (cc := cX8_memberAt) (nL := 5) (own := RX8) hE (mW_WA bd κ) (plainFor_of_name (by decide)) rfl rfl (Nat.le_of_ble_eq_true rfl) (fun Γ G hret => ?_)
  refine r_iload_n G 1 rfl rfl dX8_memberAt_0 ?_
  refine r_callSi G [.int p0] (qX8_isSet hE p0 _) gX8_memberAt_X8_isSet rfl hdX8_isSet ⟨Nat.le_of_ble_eq_true rfl, Nat.le_of_ble_eq_true rfl⟩ (Nat.le_of_ble_eq_true rfl) rfl ⟨Nat.le_of_ble_eq_true rfl, Nat.le_of_ble_eq_true rfl⟩ rfl rfl dX8_memberAt_1 (fun r1 s1 hp hn1 => ?_)
  obtain ⟨rfl, hs⟩ := hp
  have hs := hs.symm
  subst hs
  refine r_istore_n G (lv' := [(0, .ref (bd 67)), (1, .int p0), (2, .int p1), (3, .int (fX8_isSet p0 s))]) [1, 2, 3, 0] rfl rfl (by decide) dX8_memberAt_4 ?_
  refine r_iload_n G 3 rfl rfl dX8_memberAt_5 ?_
  refine r_if_eq G (tgt := 26) dX8_memberAt_6 (by decide) (fun c => ?_) (fun c => ?_)
  · rw [if_pos c] at h
    refine r_bipush G (v := 102) (by decide) dX8_memberAt_26 ?_
    refine r_istore G (lv' := [(0, .ref (bd 67)), (3, .int (fX8_isSet p0 s)), (4, .int 102)]) [1, 4, 0] rfl (by decide) dX8_memberAt_28 ?_
    refine r_aload_n G 0 rfl rfl dX8_memberAt_30 ?_
    refine r_iload_n G 1 rfl rfl dX8_memberAt_31 ?_
    refine r_iload G 2 rfl dX8_memberAt_32 ?_
    refine r_bipush G (v := 102) (by decide) dX8_memberAt_34 ?_
    refine r_icmp_ge G (tgt := 43) dX8_memberAt_36 (by decide) (fun _ => ?_) (fun c => absurd (by decide) c)
    refine r_iconst G (v := 0) (by decide) dX8_memberAt_43 ?_
    obtain ⟨o2, e2, h⟩ := ob h
    refine r_callVi G [.int (fX8_isSet p0 s), .int 0] (qX8_passes hE (fX8_isSet p0 s) (0 : Int32) _ e2) ⟨67, 8, _, _, rfl, (mw_MO bd κ _), rfl⟩ gX8_memberAt_X8_passes rfl hdX8_passes ⟨Nat.le_of_ble_eq_true rfl, Nat.le_of_ble_eq_true rfl⟩ (Nat.le_of_ble_eq_true rfl) rfl ⟨Nat.le_of_ble_eq_true rfl, Nat.le_of_ble_eq_true rfl⟩ rfl rfl dX8_memberAt_44 (fun r2 s2 hp hn2 => ?_)
    subst hp
    try dsimp only at h
    refine r_if_eq G (tgt := 58) dX8_memberAt_47 (by decide) (fun c => ?_) (fun c => ?_)
    · rw [if_pos c] at h
      refine r_iconst G (v := 0) (by decide) dX8_memberAt_58 ?_
      exact hret _ _ _ _ _ _ dX8_memberAt_59 (Option.some.inj h).symm rfl (Nat.le_of_ble_eq_true rfl) (Nat.le_of_ble_eq_true rfl)
    · rw [if_neg c] at h
      refine r_iload G 2 rfl dX8_memberAt_50 ?_
      refine r_callSi G [.int 102] (qX8_memberOf hE (102 : Int32) _) gX8_memberAt_X8_memberOf rfl hdX8_memberOf ⟨Nat.le_of_ble_eq_true rfl, Nat.le_of_ble_eq_true rfl⟩ (Nat.le_of_ble_eq_true rfl) rfl ⟨Nat.le_of_ble_eq_true rfl, Nat.le_of_ble_eq_true rfl⟩ rfl rfl dX8_memberAt_52 (fun r3 s3 hp hn3 => ?_)
      obtain ⟨rfl, hs⟩ := hp
      have hs := hs.symm
      subst hs
      refine r_goto G (tgt := 59) dX8_memberAt_55 (by decide) ?_
      exact hret _ _ _ _ _ _ dX8_memberAt_59 (Option.some.inj h).symm rfl (Nat.le_of_ble_eq_true rfl) (Nat.le_of_ble_eq_true rfl)
  · rw [if_neg c] at h
    refine r_iload_n G 2 rfl rfl dX8_memberAt_9 ?_
    refine r_if_lt G (tgt := 26) dX8_memberAt_10 (by decide) (fun c => ?_) (fun c => ?_)
    · rw [if_pos c] at h
      refine r_bipush G (v := 102) (by decide) dX8_memberAt_26 ?_
      refine r_istore G (lv' := [(0, .ref (bd 67)), (3, .int (fX8_isSet p0 s)), (4, .int 102)]) [1, 4, 0] rfl (by decide) dX8_memberAt_28 ?_
      refine r_aload_n G 0 rfl rfl dX8_memberAt_30 ?_
      refine r_iload_n G 1 rfl rfl dX8_memberAt_31 ?_
      refine r_iload G 2 rfl dX8_memberAt_32 ?_
      refine r_bipush G (v := 102) (by decide) dX8_memberAt_34 ?_
      refine r_icmp_ge G (tgt := 43) dX8_memberAt_36 (by decide) (fun _ => ?_) (fun c => absurd (by decide) c)
      refine r_iconst G (v := 0) (by decide) dX8_memberAt_43 ?_
      obtain ⟨o4, e4, h⟩ := ob h
      refine r_callVi G [.int (fX8_isSet p0 s), .int 0] (qX8_passes hE (fX8_isSet p0 s) (0 : Int32) _ e4) ⟨67, 8, _, _, rfl, (mw_MO bd κ _), rfl⟩ gX8_memberAt_X8_passes rfl hdX8_passes ⟨Nat.le_of_ble_eq_true rfl, Nat.le_of_ble_eq_true rfl⟩ (Nat.le_of_ble_eq_true rfl) rfl ⟨Nat.le_of_ble_eq_true rfl, Nat.le_of_ble_eq_true rfl⟩ rfl rfl dX8_memberAt_44 (fun r4 s4 hp hn4 => ?_)
      subst hp
      try dsimp only at h
      refine r_if_eq G (tgt := 58) dX8_memberAt_47 (by decide) (fun c => ?_) (fun c => ?_)
      · rw [if_pos c] at h
        refine r_iconst G (v := 0) (by decide) dX8_memberAt_58 ?_
        exact hret _ _ _ _ _ _ dX8_memberAt_59 (Option.some.inj h).symm rfl (Nat.le_of_ble_eq_true rfl) (Nat.le_of_ble_eq_true rfl)
      · rw [if_neg c] at h
        refine r_iload G 2 rfl dX8_memberAt_50 ?_
        refine r_callSi G [.int 102] (qX8_memberOf hE (102 : Int32) _) gX8_memberAt_X8_memberOf rfl hdX8_memberOf ⟨Nat.le_of_ble_eq_true rfl, Nat.le_of_ble_eq_true rfl⟩ (Nat.le_of_ble_eq_true rfl) rfl ⟨Nat.le_of_ble_eq_true rfl, Nat.le_of_ble_eq_true rfl⟩ rfl rfl dX8_memberAt_52 (fun r5 s5 hp hn5 => ?_)
        obtain ⟨rfl, hs⟩ := hp
        have hs := hs.symm
        subst hs
        refine r_goto G (tgt := 59) dX8_memberAt_55 (by decide) ?_
        exact hret _ _ _ _ _ _ dX8_memberAt_59 (Option.some.inj h).symm rfl (Nat.le_of_ble_eq_true rfl) (Nat.le_of_ble_eq_true rfl)
    · rw [if_neg c] at h
      refine r_aload_n G 0 rfl rfl dX8_memberAt_13 ?_
      refine r_get G (C := RX8) (T := TX8) (N := 19) kX8_memberAt_X8 67 (mw_MO bd κ _) rfl 1 (by decide) mX8_memberAt_f27 rfl rfl dX8_memberAt_14 ?_
      refine r_iload_n G 1 rfl rfl dX8_memberAt_17 ?_
      obtain ⟨g6, h⟩ := og h
      refine r_aldA G 68 5 (mw_SETSG bd κ _) rfl (vin_in g6) rfl dX8_memberAt_18 ?_
      refine r_iload_n G 2 rfl rfl dX8_memberAt_19 ?_
      obtain ⟨o7, e7, h⟩ := ob h
      refine r_callSi G [.ref (bd p0.toNatClampNeg), .int p1] (qX8_placeAt hE p0.toNatClampNeg (by have := vin_lt g6; omega) p1 _ e7) gX8_memberAt_X8_placeAt rfl hdX8_placeAt ⟨Nat.le_of_ble_eq_true rfl, Nat.le_of_ble_eq_true rfl⟩ (Nat.le_of_ble_eq_true rfl) rfl ⟨Nat.le_of_ble_eq_true rfl, Nat.le_of_ble_eq_true rfl⟩ rfl rfl dX8_memberAt_20 (fun r7 s7 hp hn7 => ?_)
      subst hp
      try dsimp only at h
      refine r_goto G (tgt := 28) dX8_memberAt_23 (by decide) ?_
      refine r_istore G (lv' := [(0, .ref (bd 67)), (3, .int (fX8_isSet p0 s)), (4, .int r7)]) [1, 4, 0] rfl (by decide) dX8_memberAt_28 ?_
      refine r_aload_n G 0 rfl rfl dX8_memberAt_30 ?_
      refine r_iload_n G 1 rfl rfl dX8_memberAt_31 ?_
      refine r_iload G 2 rfl dX8_memberAt_32 ?_
      refine r_bipush G (v := 102) (by decide) dX8_memberAt_34 ?_
      refine r_icmp_ge G (tgt := 43) dX8_memberAt_36 (by decide) (fun c => ?_) (fun c => ?_)
      · rw [if_pos c] at h
        refine r_iconst G (v := 0) (by decide) dX8_memberAt_43 ?_
        obtain ⟨o8, e8, h⟩ := ob h
        refine r_callVi G [.int (fX8_isSet p0 s), .int 0] (qX8_passes hE (fX8_isSet p0 s) (0 : Int32) _ e8) ⟨67, 8, _, _, rfl, (mw_MO bd κ _), rfl⟩ gX8_memberAt_X8_passes rfl hdX8_passes ⟨Nat.le_of_ble_eq_true rfl, Nat.le_of_ble_eq_true rfl⟩ (Nat.le_of_ble_eq_true rfl) rfl ⟨Nat.le_of_ble_eq_true rfl, Nat.le_of_ble_eq_true rfl⟩ rfl rfl dX8_memberAt_44 (fun r8 s8 hp hn8 => ?_)
        subst hp
        try dsimp only at h
        refine r_if_eq G (tgt := 58) dX8_memberAt_47 (by decide) (fun c => ?_) (fun c => ?_)
        · rw [if_pos c] at h
          refine r_iconst G (v := 0) (by decide) dX8_memberAt_58 ?_
          exact hret _ _ _ _ _ _ dX8_memberAt_59 (Option.some.inj h).symm rfl (Nat.le_of_ble_eq_true rfl) (Nat.le_of_ble_eq_true rfl)
        · rw [if_neg c] at h
          refine r_iload G 2 rfl dX8_memberAt_50 ?_
          refine r_callSi G [.int r7] (qX8_memberOf hE r7 _) gX8_memberAt_X8_memberOf rfl hdX8_memberOf ⟨Nat.le_of_ble_eq_true rfl, Nat.le_of_ble_eq_true rfl⟩ (Nat.le_of_ble_eq_true rfl) rfl ⟨Nat.le_of_ble_eq_true rfl, Nat.le_of_ble_eq_true rfl⟩ rfl rfl dX8_memberAt_52 (fun r9 s9 hp hn9 => ?_)
          obtain ⟨rfl, hs⟩ := hp
          have hs := hs.symm
          subst hs
          refine r_goto G (tgt := 59) dX8_memberAt_55 (by decide) ?_
          exact hret _ _ _ _ _ _ dX8_memberAt_59 (Option.some.inj h).symm rfl (Nat.le_of_ble_eq_true rfl) (Nat.le_of_ble_eq_true rfl)
      · rw [if_neg c] at h
        refine r_iconst G (v := 1) (by decide) dX8_memberAt_39 ?_
        refine r_goto G (tgt := 44) dX8_memberAt_40 (by decide) ?_
        obtain ⟨o10, e10, h⟩ := ob h
        refine r_callVi G [.int (fX8_isSet p0 s), .int 1] (qX8_passes hE (fX8_isSet p0 s) (1 : Int32) _ e10) ⟨67, 8, _, _, rfl, (mw_MO bd κ _), rfl⟩ gX8_memberAt_X8_passes rfl hdX8_passes ⟨Nat.le_of_ble_eq_true rfl, Nat.le_of_ble_eq_true rfl⟩ (Nat.le_of_ble_eq_true rfl) rfl ⟨Nat.le_of_ble_eq_true rfl, Nat.le_of_ble_eq_true rfl⟩ rfl rfl dX8_memberAt_44 (fun r10 s10 hp hn10 => ?_)
        subst hp
        try dsimp only at h
        refine r_if_eq G (tgt := 58) dX8_memberAt_47 (by decide) (fun c => ?_) (fun c => ?_)
        · rw [if_pos c] at h
          refine r_iconst G (v := 0) (by decide) dX8_memberAt_58 ?_
          exact hret _ _ _ _ _ _ dX8_memberAt_59 (Option.some.inj h).symm rfl (Nat.le_of_ble_eq_true rfl) (Nat.le_of_ble_eq_true rfl)
        · rw [if_neg c] at h
          refine r_iload G 2 rfl dX8_memberAt_50 ?_
          refine r_callSi G [.int r7] (qX8_memberOf hE r7 _) gX8_memberAt_X8_memberOf rfl hdX8_memberOf ⟨Nat.le_of_ble_eq_true rfl, Nat.le_of_ble_eq_true rfl⟩ (Nat.le_of_ble_eq_true rfl) rfl ⟨Nat.le_of_ble_eq_true rfl, Nat.le_of_ble_eq_true rfl⟩ rfl rfl dX8_memberAt_52 (fun r11 s11 hp hn11 => ?_)
          obtain ⟨rfl, hs⟩ := hp
          have hs := hs.symm
          subst hs
          refine r_goto G (tgt := 59) dX8_memberAt_55 (by decide) ?_
          exact hret _ _ _ _ _ _ dX8_memberAt_59 (Option.some.inj h).symm rfl (Nat.le_of_ble_eq_true rfl) (Nat.le_of_ble_eq_true rfl)
abbrev rmX8_least : Room := { frames := 2, cells := 0, slots := 0, locals := 42 }
set_option maxRecDepth 20000 in
theorem kX8_least_X8 : ∀ w ∈ u_ws RX8 TX8 19, w ∈ wsX8_least := by decide +kernel
set_option maxRecDepth 20000 in
theorem mX8_least_f27 : Cond.fieldLink RX8 27 "SetCouncilModel" "sets" "[[Z" ∈ wsX8_least := by decide +kernel
set_option maxHeartbeats 4000000 in
set_option maxRecDepth 100000 in
theorem wX8_least_L7 {E : evT} {l : Launch} {D : va_G} {bd : Nat → Nat} {κ : Nat → ClassId} (hE : EvOk E) {Γ : cxT} (G : Cx (mW bd κ) D (tyA κ) E l Γ cX8_least RX8 wsX8_least 4 rmX8_least) (x1 : Int32) (x2 : Int32) {o : (Int32 × mS)} (hret : ∀ (st2 : mS) (v : Int32) (cells slots pc : Nat) (lv : List (Nat × Value)), decode cX8_least pc = .ok (.ireturn, 1) → o = (v, st2) → narrow .int (.int v) = .int v → cells ≤ rmX8_least.cells → slots ≤ rmX8_least.slots → V (mW bd κ) D Γ st2 cells slots pc lv [.int v]) {k0 : Int32 → mS → Option (Int32 × mS)} (hk0 : ∀ (y3 : Int32) (s : mS), k0 y3 s = some o → V (mW bd κ) D Γ s 0 0 34 [(0, .ref (bd 67)), (2, .int x2), (3, .int y3)] []) : ∀ (fuel : Nat) (x3 : Int32) (s : mS), fX8_least_L7 x1 x2 k0 fuel x3 s = some o → V (mW bd κ) D Γ s 0 0 7 [(0, .ref (bd 67)), (1, .int x1), (2, .int x2), (3, .int x3)] [] := by
  intro fuel
  induction fuel with
  | zero =>
    intro _ _ h
    have h : none = some o := h
    cases h
  | succ fuel ih =>
    intro x3 s h
    rw [fX8_least_L7] at h
    refine r_iload_n G 2 rfl rfl dX8_least_7 ?_
    refine r_if_eq G (tgt := 34) dX8_least_8 (by decide) (fun c => ?_) (fun c => ?_)
    · rw [if_pos c] at h
      refine V.sub (lv' := [(0, .ref (bd 67)), (2, .int x2), (3, .int x3)]) [0, 2, 3] rfl ?_
      exact hk0 _ _ h
    · rw [if_neg c] at h
      refine r_iload_n G 3 rfl rfl dX8_least_11 ?_
      refine r_bipush G (v := 102) (by decide) dX8_least_12 ?_
      refine r_icmp_ge G (tgt := 34) dX8_least_14 (by decide) (fun c => ?_) (fun c => ?_)
      · rw [if_pos c] at h
        refine V.sub (lv' := [(0, .ref (bd 67)), (2, .int x2), (3, .int x3)]) [0, 2, 3] rfl ?_
        exact hk0 _ _ h
      · rw [if_neg c] at h
        refine r_aload_n G 0 rfl rfl dX8_least_17 ?_
        refine r_get G (C := RX8) (T := TX8) (N := 19) kX8_least_X8 67 (mw_MO bd κ _) rfl 1 (by decide) mX8_least_f27 rfl rfl dX8_least_18 ?_
        refine r_iload_n G 1 rfl rfl dX8_least_21 ?_
        obtain ⟨g2, h⟩ := og h
        refine r_aldA G 68 5 (mw_SETSG bd κ _) rfl (vin_in g2) rfl dX8_least_22 ?_
        refine r_iload_n G 3 rfl rfl dX8_least_23 ?_
        obtain ⟨g3, h⟩ := og h
        refine r_zald G x1.toNatClampNeg 4 (mw_ROW bd κ _ (by have := vin_lt g2; omega)) rfl (vin_in g3) dX8_least_24 ?_
        refine r_if_ne G (tgt := 34) dX8_least_25 (by decide) (fun c => ?_) (fun c => ?_)
        · rw [if_neg c] at h
          refine V.sub (lv' := [(0, .ref (bd 67)), (2, .int x2), (3, .int x3)]) [0, 2, 3] rfl ?_
          exact hk0 _ _ h
        · rw [if_pos c] at h
          refine r_iinc G (j := 3) rfl (v := x3 + 1) (lv' := [(0, .ref (bd 67)), (1, .int x1), (2, .int x2), (3, .int (x3 + 1))]) rfl [1, 2, 3, 0] rfl (by decide) dX8_least_28 ?_
          refine r_goto G (tgt := 7) dX8_least_31 (by decide) ?_
          exact ih _ _ h
set_option maxHeartbeats 4000000 in
set_option maxRecDepth 100000 in
theorem qX8_least {E : evT} {l : Launch} {D : va_G} {bd : Nat → Nat} {κ : Nat → ClassId} (hE : EvOk E) (p0 : Int32) (s : mS) {o : (Int32 × mS)} (h : fX8_least p0 s = some o) : Ci l yX8_least wsX8_least rmX8_least (mW bd κ) E D (tyA κ) .int [.ref (bd 67), .int p0] s (fun r s2 => o = (r, s2)) := by
  rw [fX8_least] at h
  refine s_i (cc := cX8_least) (nL := 4) (own := RX8) hE (mW_WA bd κ) (plainFor_of_name (by decide)) rfl rfl (Nat.le_of_ble_eq_true rfl) (fun Γ G hret => ?_)
  refine r_iload_n G 1 rfl rfl dX8_least_0 ?_
  refine r_callSi G [.int p0] (qX8_isSet hE p0 _) gX8_least_X8_isSet rfl hdX8_isSet ⟨Nat.le_of_ble_eq_true rfl, Nat.le_of_ble_eq_true rfl⟩ (Nat.le_of_ble_eq_true rfl) rfl ⟨Nat.le_of_ble_eq_true rfl, Nat.le_of_ble_eq_true rfl⟩ rfl rfl dX8_least_1 (fun r1 s1 hp hn1 => ?_)
  obtain ⟨rfl, hs⟩ := hp
  have hs := hs.symm
  subst hs
  refine r_istore_n G (lv' := [(0, .ref (bd 67)), (1, .int p0), (2, .int (fX8_isSet p0 s))]) [1, 2, 0] rfl rfl (by decide) dX8_least_4 ?_
  refine r_iconst G (v := 1) (by decide) dX8_least_5 ?_
  refine r_istore_n G (lv' := [(0, .ref (bd 67)), (1, .int p0), (2, .int (fX8_isSet p0 s)), (3, .int 1)]) [1, 2, 3, 0] rfl rfl (by decide) dX8_least_6 ?_
  refine wX8_least_L7 hE G _ _ hret (fun y3_4 s4 h => ?_) 1100 _ _ h
  · try dsimp only at h
    refine r_aload_n G 0 rfl rfl dX8_least_34 ?_
    refine r_iload_n G 1 rfl rfl dX8_least_35 ?_
    refine r_iload_n G 2 rfl rfl dX8_least_36 ?_
    refine r_bipush G (v := 102) (by decide) dX8_least_37 ?_
    refine r_icmp_ge G (tgt := 46) dX8_least_39 (by decide) (fun c => ?_) (fun c => ?_)
    · rw [if_pos c] at h
      refine r_iconst G (v := 0) (by decide) dX8_least_46 ?_
      obtain ⟨o5, e5, h⟩ := ob h
      refine r_callVi G [.int (fX8_isSet p0 s), .int 0] (qX8_passes hE (fX8_isSet p0 s) (0 : Int32) _ e5) ⟨67, 8, _, _, rfl, (mw_MO bd κ _), rfl⟩ gX8_least_X8_passes rfl hdX8_passes ⟨Nat.le_of_ble_eq_true rfl, Nat.le_of_ble_eq_true rfl⟩ (Nat.le_of_ble_eq_true rfl) rfl ⟨Nat.le_of_ble_eq_true rfl, Nat.le_of_ble_eq_true rfl⟩ rfl rfl dX8_least_47 (fun r5 s5 hp hn5 => ?_)
      subst hp
      try dsimp only at h
      refine r_if_eq G (tgt := 60) dX8_least_50 (by decide) (fun c => ?_) (fun c => ?_)
      · rw [if_pos c] at h
        refine r_iconst G (v := 0) (by decide) dX8_least_60 ?_
        exact hret _ _ _ _ _ _ dX8_least_61 (Option.some.inj h).symm rfl (Nat.le_of_ble_eq_true rfl) (Nat.le_of_ble_eq_true rfl)
      · rw [if_neg c] at h
        refine r_iload_n G 2 rfl rfl dX8_least_53 ?_
        refine r_callSi G [.int y3_4] (qX8_memberOf hE y3_4 _) gX8_least_X8_memberOf rfl hdX8_memberOf ⟨Nat.le_of_ble_eq_true rfl, Nat.le_of_ble_eq_true rfl⟩ (Nat.le_of_ble_eq_true rfl) rfl ⟨Nat.le_of_ble_eq_true rfl, Nat.le_of_ble_eq_true rfl⟩ rfl rfl dX8_least_54 (fun r6 s6 hp hn6 => ?_)
        obtain ⟨rfl, hs⟩ := hp
        have hs := hs.symm
        subst hs
        refine r_goto G (tgt := 61) dX8_least_57 (by decide) ?_
        exact hret _ _ _ _ _ _ dX8_least_61 (Option.some.inj h).symm rfl (Nat.le_of_ble_eq_true rfl) (Nat.le_of_ble_eq_true rfl)
    · rw [if_neg c] at h
      refine r_iconst G (v := 1) (by decide) dX8_least_42 ?_
      refine r_goto G (tgt := 47) dX8_least_43 (by decide) ?_
      obtain ⟨o7, e7, h⟩ := ob h
      refine r_callVi G [.int (fX8_isSet p0 s), .int 1] (qX8_passes hE (fX8_isSet p0 s) (1 : Int32) _ e7) ⟨67, 8, _, _, rfl, (mw_MO bd κ _), rfl⟩ gX8_least_X8_passes rfl hdX8_passes ⟨Nat.le_of_ble_eq_true rfl, Nat.le_of_ble_eq_true rfl⟩ (Nat.le_of_ble_eq_true rfl) rfl ⟨Nat.le_of_ble_eq_true rfl, Nat.le_of_ble_eq_true rfl⟩ rfl rfl dX8_least_47 (fun r7 s7 hp hn7 => ?_)
      subst hp
      try dsimp only at h
      refine r_if_eq G (tgt := 60) dX8_least_50 (by decide) (fun c => ?_) (fun c => ?_)
      · rw [if_pos c] at h
        refine r_iconst G (v := 0) (by decide) dX8_least_60 ?_
        exact hret _ _ _ _ _ _ dX8_least_61 (Option.some.inj h).symm rfl (Nat.le_of_ble_eq_true rfl) (Nat.le_of_ble_eq_true rfl)
      · rw [if_neg c] at h
        refine r_iload_n G 2 rfl rfl dX8_least_53 ?_
        refine r_callSi G [.int y3_4] (qX8_memberOf hE y3_4 _) gX8_least_X8_memberOf rfl hdX8_memberOf ⟨Nat.le_of_ble_eq_true rfl, Nat.le_of_ble_eq_true rfl⟩ (Nat.le_of_ble_eq_true rfl) rfl ⟨Nat.le_of_ble_eq_true rfl, Nat.le_of_ble_eq_true rfl⟩ rfl rfl dX8_least_54 (fun r8 s8 hp hn8 => ?_)
        obtain ⟨rfl, hs⟩ := hp
        have hs := hs.symm
        subst hs
        refine r_goto G (tgt := 61) dX8_least_57 (by decide) ?_
        exact hret _ _ _ _ _ _ dX8_least_61 (Option.some.inj h).symm rfl (Nat.le_of_ble_eq_true rfl) (Nat.le_of_ble_eq_true rfl)
abbrev rmX8_greatest : Room := { frames := 2, cells := 0, slots := 0, locals := 42 }
set_option maxRecDepth 20000 in
theorem kX8_greatest_X8 : ∀ w ∈ u_ws RX8 TX8 19, w ∈ wsX8_greatest := by decide +kernel
set_option maxRecDepth 20000 in
theorem mX8_greatest_f27 : Cond.fieldLink RX8 27 "SetCouncilModel" "sets" "[[Z" ∈ wsX8_greatest := by decide +kernel
set_option maxHeartbeats 4000000 in
set_option maxRecDepth 100000 in
theorem wX8_greatest_L8 {E : evT} {l : Launch} {D : va_G} {bd : Nat → Nat} {κ : Nat → ClassId} (hE : EvOk E) {Γ : cxT} (G : Cx (mW bd κ) D (tyA κ) E l Γ cX8_greatest RX8 wsX8_greatest 4 rmX8_greatest) (x1 : Int32) (x2 : Int32) {o : (Int32 × mS)} (hret : ∀ (st2 : mS) (v : Int32) (cells slots pc : Nat) (lv : List (Nat × Value)), decode cX8_greatest pc = .ok (.ireturn, 1) → o = (v, st2) → narrow .int (.int v) = .int v → cells ≤ rmX8_greatest.cells → slots ≤ rmX8_greatest.slots → V (mW bd κ) D Γ st2 cells slots pc lv [.int v]) {k0 : Int32 → mS → Option (Int32 × mS)} (hk0 : ∀ (y3 : Int32) (s : mS), k0 y3 s = some o → V (mW bd κ) D Γ s 0 0 33 [(0, .ref (bd 67)), (2, .int x2), (3, .int y3)] []) : ∀ (fuel : Nat) (x3 : Int32) (s : mS), fX8_greatest_L8 x1 x2 k0 fuel x3 s = some o → V (mW bd κ) D Γ s 0 0 8 [(0, .ref (bd 67)), (1, .int x1), (2, .int x2), (3, .int x3)] [] := by
  intro fuel
  induction fuel with
  | zero =>
    intro _ _ h
    have h : none = some o := h
    cases h
  | succ fuel ih =>
    intro x3 s h
    rw [fX8_greatest_L8] at h
    refine r_iload_n G 2 rfl rfl dX8_greatest_8 ?_
    refine r_if_eq G (tgt := 33) dX8_greatest_9 (by decide) (fun c => ?_) (fun c => ?_)
    · rw [if_pos c] at h
      refine V.sub (lv' := [(0, .ref (bd 67)), (2, .int x2), (3, .int x3)]) [0, 2, 3] rfl ?_
      exact hk0 _ _ h
    · rw [if_neg c] at h
      refine r_iload_n G 3 rfl rfl dX8_greatest_12 ?_
      refine r_if_le G (tgt := 33) dX8_greatest_13 (by decide) (fun c => ?_) (fun c => ?_)
      · rw [if_pos c] at h
        refine V.sub (lv' := [(0, .ref (bd 67)), (2, .int x2), (3, .int x3)]) [0, 2, 3] rfl ?_
        exact hk0 _ _ h
      · rw [if_neg c] at h
        refine r_aload_n G 0 rfl rfl dX8_greatest_16 ?_
        refine r_get G (C := RX8) (T := TX8) (N := 19) kX8_greatest_X8 67 (mw_MO bd κ _) rfl 1 (by decide) mX8_greatest_f27 rfl rfl dX8_greatest_17 ?_
        refine r_iload_n G 1 rfl rfl dX8_greatest_20 ?_
        obtain ⟨g2, h⟩ := og h
        refine r_aldA G 68 5 (mw_SETSG bd κ _) rfl (vin_in g2) rfl dX8_greatest_21 ?_
        refine r_iload_n G 3 rfl rfl dX8_greatest_22 ?_
        obtain ⟨g3, h⟩ := og h
        refine r_zald G x1.toNatClampNeg 4 (mw_ROW bd κ _ (by have := vin_lt g2; omega)) rfl (vin_in g3) dX8_greatest_23 ?_
        refine r_if_ne G (tgt := 33) dX8_greatest_24 (by decide) (fun c => ?_) (fun c => ?_)
        · rw [if_neg c] at h
          refine V.sub (lv' := [(0, .ref (bd 67)), (2, .int x2), (3, .int x3)]) [0, 2, 3] rfl ?_
          exact hk0 _ _ h
        · rw [if_pos c] at h
          refine r_iinc G (j := 3) rfl (v := x3 + (-1)) (lv' := [(0, .ref (bd 67)), (1, .int x1), (2, .int x2), (3, .int (x3 + (-1)))]) (iincm _) [1, 2, 3, 0] rfl (by decide) dX8_greatest_27 ?_
          refine r_goto G (tgt := 8) dX8_greatest_30 (by decide) ?_
          exact ih _ _ h
set_option maxHeartbeats 4000000 in
set_option maxRecDepth 100000 in
theorem qX8_greatest {E : evT} {l : Launch} {D : va_G} {bd : Nat → Nat} {κ : Nat → ClassId} (hE : EvOk E) (p0 : Int32) (s : mS) {o : (Int32 × mS)} (h : fX8_greatest p0 s = some o) : Ci l yX8_greatest wsX8_greatest rmX8_greatest (mW bd κ) E D (tyA κ) .int [.ref (bd 67), .int p0] s (fun r s2 => o = (r, s2)) := by
  rw [fX8_greatest] at h
  refine s_i (cc := cX8_greatest) (nL := 4) (own := RX8) hE (mW_WA bd κ) (plainFor_of_name (by decide)) rfl rfl (Nat.le_of_ble_eq_true rfl) (fun Γ G hret => ?_)
  refine r_iload_n G 1 rfl rfl dX8_greatest_0 ?_
  refine r_callSi G [.int p0] (qX8_isSet hE p0 _) gX8_greatest_X8_isSet rfl hdX8_isSet ⟨Nat.le_of_ble_eq_true rfl, Nat.le_of_ble_eq_true rfl⟩ (Nat.le_of_ble_eq_true rfl) rfl ⟨Nat.le_of_ble_eq_true rfl, Nat.le_of_ble_eq_true rfl⟩ rfl rfl dX8_greatest_1 (fun r1 s1 hp hn1 => ?_)
  obtain ⟨rfl, hs⟩ := hp
  have hs := hs.symm
  subst hs
  refine r_istore_n G (lv' := [(0, .ref (bd 67)), (1, .int p0), (2, .int (fX8_isSet p0 s))]) [1, 2, 0] rfl rfl (by decide) dX8_greatest_4 ?_
  refine r_bipush G (v := 101) (by decide) dX8_greatest_5 ?_
  refine r_istore_n G (lv' := [(0, .ref (bd 67)), (1, .int p0), (2, .int (fX8_isSet p0 s)), (3, .int 101)]) [1, 2, 3, 0] rfl rfl (by decide) dX8_greatest_7 ?_
  refine wX8_greatest_L8 hE G _ _ hret (fun y3_4 s4 h => ?_) 1100 _ _ h
  · try dsimp only at h
    refine r_aload_n G 0 rfl rfl dX8_greatest_33 ?_
    refine r_iload_n G 1 rfl rfl dX8_greatest_34 ?_
    refine r_iload_n G 2 rfl rfl dX8_greatest_35 ?_
    refine r_if_le G (tgt := 43) dX8_greatest_36 (by decide) (fun c => ?_) (fun c => ?_)
    · rw [if_pos c] at h
      refine r_iconst G (v := 0) (by decide) dX8_greatest_43 ?_
      obtain ⟨o5, e5, h⟩ := ob h
      refine r_callVi G [.int (fX8_isSet p0 s), .int 0] (qX8_passes hE (fX8_isSet p0 s) (0 : Int32) _ e5) ⟨67, 8, _, _, rfl, (mw_MO bd κ _), rfl⟩ gX8_greatest_X8_passes rfl hdX8_passes ⟨Nat.le_of_ble_eq_true rfl, Nat.le_of_ble_eq_true rfl⟩ (Nat.le_of_ble_eq_true rfl) rfl ⟨Nat.le_of_ble_eq_true rfl, Nat.le_of_ble_eq_true rfl⟩ rfl rfl dX8_greatest_44 (fun r5 s5 hp hn5 => ?_)
      subst hp
      try dsimp only at h
      refine r_if_eq G (tgt := 57) dX8_greatest_47 (by decide) (fun c => ?_) (fun c => ?_)
      · rw [if_pos c] at h
        refine r_iconst G (v := 0) (by decide) dX8_greatest_57 ?_
        exact hret _ _ _ _ _ _ dX8_greatest_58 (Option.some.inj h).symm rfl (Nat.le_of_ble_eq_true rfl) (Nat.le_of_ble_eq_true rfl)
      · rw [if_neg c] at h
        refine r_iload_n G 2 rfl rfl dX8_greatest_50 ?_
        refine r_callSi G [.int y3_4] (qX8_memberOf hE y3_4 _) gX8_greatest_X8_memberOf rfl hdX8_memberOf ⟨Nat.le_of_ble_eq_true rfl, Nat.le_of_ble_eq_true rfl⟩ (Nat.le_of_ble_eq_true rfl) rfl ⟨Nat.le_of_ble_eq_true rfl, Nat.le_of_ble_eq_true rfl⟩ rfl rfl dX8_greatest_51 (fun r6 s6 hp hn6 => ?_)
        obtain ⟨rfl, hs⟩ := hp
        have hs := hs.symm
        subst hs
        refine r_goto G (tgt := 58) dX8_greatest_54 (by decide) ?_
        exact hret _ _ _ _ _ _ dX8_greatest_58 (Option.some.inj h).symm rfl (Nat.le_of_ble_eq_true rfl) (Nat.le_of_ble_eq_true rfl)
    · rw [if_neg c] at h
      refine r_iconst G (v := 1) (by decide) dX8_greatest_39 ?_
      refine r_goto G (tgt := 44) dX8_greatest_40 (by decide) ?_
      obtain ⟨o7, e7, h⟩ := ob h
      refine r_callVi G [.int (fX8_isSet p0 s), .int 1] (qX8_passes hE (fX8_isSet p0 s) (1 : Int32) _ e7) ⟨67, 8, _, _, rfl, (mw_MO bd κ _), rfl⟩ gX8_greatest_X8_passes rfl hdX8_passes ⟨Nat.le_of_ble_eq_true rfl, Nat.le_of_ble_eq_true rfl⟩ (Nat.le_of_ble_eq_true rfl) rfl ⟨Nat.le_of_ble_eq_true rfl, Nat.le_of_ble_eq_true rfl⟩ rfl rfl dX8_greatest_44 (fun r7 s7 hp hn7 => ?_)
      subst hp
      try dsimp only at h
      refine r_if_eq G (tgt := 57) dX8_greatest_47 (by decide) (fun c => ?_) (fun c => ?_)
      · rw [if_pos c] at h
        refine r_iconst G (v := 0) (by decide) dX8_greatest_57 ?_
        exact hret _ _ _ _ _ _ dX8_greatest_58 (Option.some.inj h).symm rfl (Nat.le_of_ble_eq_true rfl) (Nat.le_of_ble_eq_true rfl)
      · rw [if_neg c] at h
        refine r_iload_n G 2 rfl rfl dX8_greatest_50 ?_
        refine r_callSi G [.int y3_4] (qX8_memberOf hE y3_4 _) gX8_greatest_X8_memberOf rfl hdX8_memberOf ⟨Nat.le_of_ble_eq_true rfl, Nat.le_of_ble_eq_true rfl⟩ (Nat.le_of_ble_eq_true rfl) rfl ⟨Nat.le_of_ble_eq_true rfl, Nat.le_of_ble_eq_true rfl⟩ rfl rfl dX8_greatest_51 (fun r8 s8 hp hn8 => ?_)
        obtain ⟨rfl, hs⟩ := hp
        have hs := hs.symm
        subst hs
        refine r_goto G (tgt := 58) dX8_greatest_54 (by decide) ?_
        exact hret _ _ _ _ _ _ dX8_greatest_58 (Option.some.inj h).symm rfl (Nat.le_of_ble_eq_true rfl) (Nat.le_of_ble_eq_true rfl)
