abbrev rmX0_count : Room := { frames := 0, cells := 0, slots := 0, locals := 0 }
set_option maxRecDepth 20000 in
theorem kX0_count_X0 : ∀ w ∈ u_ws RX0 TX0 3, w ∈ wsX0_count := by decide +kernel
set_option maxRecDepth 20000 in
theorem mX0_count_f22 : Cond.fieldLink RX0 22 "SetCouncil$Family" "count" "I" ∈ wsX0_count := by decide +kernel
set_option maxHeartbeats 4000000 in
set_option maxRecDepth 100000 in
theorem qX0_count {E : evT} {l : Launch} {D : va_G} {ad : Nat → Nat} {κ : Nat → ClassId} (hE : EvOk E) (F : Nat) (hF : F < 2) (s : cS) : Ci l yX0_count wsX0_count rmX0_count (cW ad κ) E D (tyA κ) .int [.ref (ad (66 + F))] s (fun r s2 => r = fX0_count F s ∧ s2 = s) := by
  obtain ⟨o, h⟩ : ∃ o, fX0_count F s = o := ⟨_, rfl⟩
  rw [h]
  rw [fX0_count] at h
  refine s_i (cc := cX0_count) (nL := 1) (own := RX0) hE (cW_WA ad κ) (plainFor_of_name (by decide)) rfl rfl (Nat.le_of_ble_eq_true rfl) (fun Γ G hret => ?_)
  refine r_aload_n G 0 rfl rfl dX0_count_0 ?_
  refine r_get G (C := RX0) (T := TX0) (N := 3) kX0_count_X0 (66 + F) (cw_FAM ad κ _ hF) rfl 2 (by decide) mX0_count_f22 rfl rfl dX0_count_1 ?_
  exact hret _ _ _ _ _ _ dX0_count_4 ⟨h, rfl⟩ rfl (Nat.le_of_ble_eq_true rfl) (Nat.le_of_ble_eq_true rfl)
abbrev rmX0_empty : Room := { frames := 0, cells := 0, slots := 0, locals := 0 }
set_option maxRecDepth 20000 in
theorem kX0_empty_X0 : ∀ w ∈ u_ws RX0 TX0 3, w ∈ wsX0_empty := by decide +kernel
set_option maxRecDepth 20000 in
theorem mX0_empty_f22 : Cond.fieldLink RX0 22 "SetCouncil$Family" "count" "I" ∈ wsX0_empty := by decide +kernel
set_option maxHeartbeats 4000000 in
set_option maxRecDepth 100000 in
theorem qX0_empty {E : evT} {l : Launch} {D : va_G} {ad : Nat → Nat} {κ : Nat → ClassId} (hE : EvOk E) (F : Nat) (hF : F < 2) (s : cS) {o : (cS)} (h : fX0_empty F s = some o) : Cv l yX0_empty wsX0_empty rmX0_empty (cW ad κ) E D (tyA κ)  [.ref (ad (66 + F))] s (fun s2 => o = s2) := by
  rw [fX0_empty] at h
  refine s_v (cc := cX0_empty) (nL := 1) (own := RX0) hE (cW_WA ad κ) (by decide) rfl rfl (Nat.le_of_ble_eq_true rfl) (fun Γ G hret => ?_)
  refine r_aload_n G 0 rfl rfl dX0_empty_0 ?_
  refine r_iconst G (v := 0) (by decide) dX0_empty_1 ?_
  refine r_put G (C := RX0) (T := TX0) (N := 3) kX0_empty_X0 tyX0 tyX0_ok nmX0 (66 + F) (cw_FAM ad κ _ hF) rfl 2 (by decide) mX0_empty_f22 rfl rfl (tyX0_ok 2 (by decide)) rfl rfl (Nat.le_of_ble_eq_true rfl) (cu_COUNT ad κ _ hF _) dX0_empty_2 ?_
  exact hret _ _ _ _ _ dX0_empty_5 (Option.some.inj h).symm (Nat.le_of_ble_eq_true rfl) (Nat.le_of_ble_eq_true rfl)
abbrev rmX0_become : Room := { frames := 1, cells := 0, slots := 0, locals := 21 }
set_option maxRecDepth 20000 in
theorem kX0_become_X0 : ∀ w ∈ u_ws RX0 TX0 3, w ∈ wsX0_become := by decide +kernel
set_option maxRecDepth 20000 in
theorem mX0_become_f22 : Cond.fieldLink RX0 22 "SetCouncil$Family" "count" "I" ∈ wsX0_become := by decide +kernel
set_option maxRecDepth 20000 in
theorem mX0_become_f11 : Cond.fieldLink RX0 11 "SetCouncil$Family" "held" "[LSetCouncil$MemberSet;" ∈ wsX0_become := by decide +kernel
theorem hdX2_become : yX2_become.cls = RX2 ∧ yX2_become.cls ≠ "java/lang/invoke/MethodHandle" ∧ yX2_become.cls ≠ "java/lang/invoke/VarHandle" ∧ (parseMethodDescriptor yX2_become.desc).map (fun d => d.parameters.length) = some 1 := by decide +kernel
set_option maxHeartbeats 4000000 in
set_option maxRecDepth 100000 in
theorem wX0_become_L10 {E : evT} {l : Launch} {D : va_G} {ad : Nat → Nat} {κ : Nat → ClassId} (hE : EvOk E) {Γ : cxT} (G : Cx (cW ad κ) D (tyA κ) E l Γ cX0_become RX0 wsX0_become 3 rmX0_become) (z0 : Nat) (hz0 : z0 < 2) (z1 : Nat) (hz1 : z1 < 2) {o : (cS)} (hret : ∀ (st2 : cS) (cells slots pc : Nat) (lv : List (Nat × Value)), decode cX0_become pc = .ok (.return_, 1) → o = st2 → cells ≤ rmX0_become.cells → slots ≤ rmX0_become.slots → V (cW ad κ) D Γ st2 cells slots pc lv []) : ∀ (fuel : Nat) (x2 : Int32) (s : cS), fX0_become_L10 z0 z1 fuel x2 s = some o → V (cW ad κ) D Γ s 0 0 10 [(0, .ref (ad (66 + z0))), (1, .ref (ad (66 + z1))), (2, .int x2)] [] := by
  intro fuel
  induction fuel with
  | zero =>
    intro _ _ h
    have h : none = some o := h
    cases h
  | succ fuel ih =>
    intro x2 s h
    rw [fX0_become_L10] at h
    refine r_iload_n G 2 rfl rfl dX0_become_10 ?_
    refine r_aload_n G 0 rfl rfl dX0_become_11 ?_
    refine r_get G (C := RX0) (T := TX0) (N := 3) kX0_become_X0 (66 + z0) (cw_FAM ad κ _ hz0) rfl 2 (by decide) mX0_become_f22 rfl rfl dX0_become_12 ?_
    refine r_icmp_ge G (tgt := 39) dX0_become_15 (by decide) (fun c => ?_) (fun c => ?_)
    · rw [if_pos c] at h
      exact hret _ _ _ _ _ dX0_become_39 (Option.some.inj h).symm (Nat.le_of_ble_eq_true rfl) (Nat.le_of_ble_eq_true rfl)
    · rw [if_neg c] at h
      refine r_aload_n G 0 rfl rfl dX0_become_18 ?_
      refine r_get G (C := RX0) (T := TX0) (N := 3) kX0_become_X0 (66 + z0) (cw_FAM ad κ _ hz0) rfl 0 (by decide) mX0_become_f11 rfl rfl dX0_become_19 ?_
      refine r_iload_n G 2 rfl rfl dX0_become_22 ?_
      obtain ⟨g1, h⟩ := og h
      refine r_aldq G (68 + z0) 0 (cw_HELD ad κ _ hz0) rfl (vin_in g1) rfl dX0_become_23 ?_
      refine r_aload_n G 1 rfl rfl dX0_become_24 ?_
      refine r_get G (C := RX0) (T := TX0) (N := 3) kX0_become_X0 (66 + z1) (cw_FAM ad κ _ hz1) rfl 0 (by decide) mX0_become_f11 rfl rfl dX0_become_25 ?_
      refine r_iload_n G 2 rfl rfl dX0_become_28 ?_
      obtain ⟨g2, h⟩ := og h
      refine r_aldq G (68 + z1) 0 (cw_HELD ad κ _ hz1) rfl (vin_in g2) rfl dX0_become_29 ?_
      obtain ⟨o3, e3, h⟩ := ob h
      refine r_callVv G [.ref (ad (8 + 8 * z1 + x2.toNatClampNeg))] (qX2_become hE (8 + 8 * z0 + x2.toNatClampNeg) (by have := vin_lt g1; have := hz0; omega) (8 + 8 * z1 + x2.toNatClampNeg) (by have := vin_lt g2; have := hz1; omega) _ e3) ⟨(8 + 8 * z0 + x2.toNatClampNeg), 2, _, _, rfl, (cw_MS ad κ _ (by have := vin_lt g1; have := hz0; omega)), rfl⟩ gX0_become_X2_become rfl hdX2_become ⟨Nat.le_of_ble_eq_true rfl, Nat.le_of_ble_eq_true rfl⟩ (Nat.le_of_ble_eq_true rfl) rfl ⟨Nat.le_of_ble_eq_true rfl, Nat.le_of_ble_eq_true rfl⟩ rfl rfl dX0_become_30 (fun s3 hp => ?_)
      have hp := hp.symm
      subst hp
      try dsimp only at h
      refine r_iinc G (j := 2) rfl (v := x2 + 1) rfl [1, 2, 0] rfl (by decide) dX0_become_33 ?_
      refine r_goto G (tgt := 10) dX0_become_36 (by decide) ?_
      exact ih _ _ h
set_option maxHeartbeats 4000000 in
set_option maxRecDepth 100000 in
theorem qX0_become {E : evT} {l : Launch} {D : va_G} {ad : Nat → Nat} {κ : Nat → ClassId} (hE : EvOk E) (F : Nat) (hF : F < 2) (p0 : Nat) (hp0 : p0 < 2) (s : cS) {o : (cS)} (h : fX0_become F p0 s = some o) : Cv l yX0_become wsX0_become rmX0_become (cW ad κ) E D (tyA κ)  [.ref (ad (66 + F)), .ref (ad (66 + p0))] s (fun s2 => o = s2) := by
  rw [fX0_become] at h
  refine s_v (cc := cX0_become) (nL := 3) (own := RX0) hE (cW_WA ad κ) (by decide) rfl rfl (Nat.le_of_ble_eq_true rfl) (fun Γ G hret => ?_)
  refine r_aload_n G 0 rfl rfl dX0_become_0 ?_
  refine r_aload_n G 1 rfl rfl dX0_become_1 ?_
  refine r_get G (C := RX0) (T := TX0) (N := 3) kX0_become_X0 (66 + p0) (cw_FAM ad κ _ hp0) rfl 2 (by decide) mX0_become_f22 rfl rfl dX0_become_2 ?_
  refine r_put G (C := RX0) (T := TX0) (N := 3) kX0_become_X0 tyX0 tyX0_ok nmX0 (66 + F) (cw_FAM ad κ _ hF) rfl 2 (by decide) mX0_become_f22 rfl rfl (tyX0_ok 2 (by decide)) rfl rfl (Nat.le_of_ble_eq_true rfl) (cu_COUNT ad κ _ hF _) dX0_become_5 ?_
  refine r_iconst G (v := 0) (by decide) dX0_become_8 ?_
  refine r_istore_n G [1, 2, 0] rfl rfl (by decide) dX0_become_9 ?_
  refine wX0_become_L10 hE G _ hF _ hp0 hret 1100 _ _ h
abbrev rmX0_total : Room := { frames := 2, cells := 0, slots := 0, locals := 45 }
set_option maxRecDepth 20000 in
theorem kX0_total_X0 : ∀ w ∈ u_ws RX0 TX0 3, w ∈ wsX0_total := by decide +kernel
set_option maxRecDepth 20000 in
theorem mX0_total_f22 : Cond.fieldLink RX0 22 "SetCouncil$Family" "count" "I" ∈ wsX0_total := by decide +kernel
set_option maxRecDepth 20000 in
theorem mX0_total_f11 : Cond.fieldLink RX0 11 "SetCouncil$Family" "held" "[LSetCouncil$MemberSet;" ∈ wsX0_total := by decide +kernel
theorem hdX2_total : yX2_total.cls = RX2 ∧ yX2_total.cls ≠ "java/lang/invoke/MethodHandle" ∧ yX2_total.cls ≠ "java/lang/invoke/VarHandle" ∧ (parseMethodDescriptor yX2_total.desc).map (fun d => d.parameters.length) = some 0 := by decide +kernel
set_option maxHeartbeats 4000000 in
set_option maxRecDepth 100000 in
theorem wX0_total_L4 {E : evT} {l : Launch} {D : va_G} {ad : Nat → Nat} {κ : Nat → ClassId} (hE : EvOk E) {Γ : cxT} (G : Cx (cW ad κ) D (tyA κ) E l Γ cX0_total RX0 wsX0_total 3 rmX0_total) (z0 : Nat) (hz0 : z0 < 2) {o : (Int32 × cS)} (hret : ∀ (st2 : cS) (v : Int32) (cells slots pc : Nat) (lv : List (Nat × Value)), decode cX0_total pc = .ok (.ireturn, 1) → o = (v, st2) → narrow .int (.int v) = .int v → cells ≤ rmX0_total.cells → slots ≤ rmX0_total.slots → V (cW ad κ) D Γ st2 cells slots pc lv [.int v]) : ∀ (fuel : Nat) (x1 : Int32) (x2 : Int32) (s : cS), fX0_total_L4 z0 fuel x1 x2 s = some o → V (cW ad κ) D Γ s 0 0 4 [(0, .ref (ad (66 + z0))), (1, .int x1), (2, .int x2)] [] := by
  intro fuel
  induction fuel with
  | zero =>
    intro _ _ _ h
    have h : none = some o := h
    cases h
  | succ fuel ih =>
    intro x1 x2 s h
    rw [fX0_total_L4] at h
    refine r_iload_n G 2 rfl rfl dX0_total_4 ?_
    refine r_aload_n G 0 rfl rfl dX0_total_5 ?_
    refine r_get G (C := RX0) (T := TX0) (N := 3) kX0_total_X0 (66 + z0) (cw_FAM ad κ _ hz0) rfl 2 (by decide) mX0_total_f22 rfl rfl dX0_total_6 ?_
    refine r_icmp_ge G (tgt := 30) dX0_total_9 (by decide) (fun c => ?_) (fun c => ?_)
    · rw [if_pos c] at h
      refine r_iload_n G 1 rfl rfl dX0_total_30 ?_
      exact hret _ _ _ _ _ _ dX0_total_31 (Option.some.inj h).symm rfl (Nat.le_of_ble_eq_true rfl) (Nat.le_of_ble_eq_true rfl)
    · rw [if_neg c] at h
      refine r_iload_n G 1 rfl rfl dX0_total_12 ?_
      refine r_aload_n G 0 rfl rfl dX0_total_13 ?_
      refine r_get G (C := RX0) (T := TX0) (N := 3) kX0_total_X0 (66 + z0) (cw_FAM ad κ _ hz0) rfl 0 (by decide) mX0_total_f11 rfl rfl dX0_total_14 ?_
      refine r_iload_n G 2 rfl rfl dX0_total_17 ?_
      obtain ⟨g1, h⟩ := og h
      refine r_aldq G (68 + z0) 0 (cw_HELD ad κ _ hz0) rfl (vin_in g1) rfl dX0_total_18 ?_
      obtain ⟨o2, e2, h⟩ := ob h
      refine r_callVi G [] (qX2_total hE (8 + 8 * z0 + x2.toNatClampNeg) (by have := vin_lt g1; have := hz0; omega) _ e2) ⟨(8 + 8 * z0 + x2.toNatClampNeg), 2, _, _, rfl, (cw_MS ad κ _ (by have := vin_lt g1; have := hz0; omega)), rfl⟩ gX0_total_X2_total rfl hdX2_total ⟨Nat.le_of_ble_eq_true rfl, Nat.le_of_ble_eq_true rfl⟩ (Nat.le_of_ble_eq_true rfl) rfl ⟨Nat.le_of_ble_eq_true rfl, Nat.le_of_ble_eq_true rfl⟩ rfl rfl dX0_total_19 (fun r2 s2 hp hn2 => ?_)
      subst hp
      try dsimp only at h
      refine r_iadd G dX0_total_22 ?_
      refine r_istore_n G [1, 0, 2] rfl rfl (by decide) dX0_total_23 ?_
      refine r_iinc G (j := 2) rfl (v := x2 + 1) rfl [1, 2, 0] rfl (by decide) dX0_total_24 ?_
      refine r_goto G (tgt := 4) dX0_total_27 (by decide) ?_
      exact ih _ _ _ h
set_option maxHeartbeats 4000000 in
set_option maxRecDepth 100000 in
theorem qX0_total {E : evT} {l : Launch} {D : va_G} {ad : Nat → Nat} {κ : Nat → ClassId} (hE : EvOk E) (F : Nat) (hF : F < 2) (s : cS) {o : (Int32 × cS)} (h : fX0_total F s = some o) : Ci l yX0_total wsX0_total rmX0_total (cW ad κ) E D (tyA κ) .int [.ref (ad (66 + F))] s (fun r s2 => o = (r, s2)) := by
  rw [fX0_total] at h
  refine s_i (cc := cX0_total) (nL := 3) (own := RX0) hE (cW_WA ad κ) (plainFor_of_name (by decide)) rfl rfl (Nat.le_of_ble_eq_true rfl) (fun Γ G hret => ?_)
  refine r_iconst G (v := 0) (by decide) dX0_total_0 ?_
  refine r_istore_n G [1, 0] rfl rfl (by decide) dX0_total_1 ?_
  refine r_iconst G (v := 0) (by decide) dX0_total_2 ?_
  refine r_istore_n G [1, 2, 0] rfl rfl (by decide) dX0_total_3 ?_
  refine wX0_total_L4 hE G _ hF hret 1100 _ _ _ h
abbrev rmX0_hasPlace : Room := { frames := 0, cells := 0, slots := 0, locals := 0 }
set_option maxRecDepth 20000 in
theorem kX0_hasPlace_X0 : ∀ w ∈ u_ws RX0 TX0 3, w ∈ wsX0_hasPlace := by decide +kernel
set_option maxRecDepth 20000 in
theorem mX0_hasPlace_f22 : Cond.fieldLink RX0 22 "SetCouncil$Family" "count" "I" ∈ wsX0_hasPlace := by decide +kernel
set_option maxHeartbeats 4000000 in
set_option maxRecDepth 100000 in
theorem qX0_hasPlace {E : evT} {l : Launch} {D : va_G} {ad : Nat → Nat} {κ : Nat → ClassId} (hE : EvOk E) (F : Nat) (hF : F < 2) (p0 : Int32) (s : cS) : Ci l yX0_hasPlace wsX0_hasPlace rmX0_hasPlace (cW ad κ) E D (tyA κ) .boolean [.ref (ad (66 + F)), .int p0] s (fun r s2 => r = fX0_hasPlace F p0 s ∧ s2 = s) := by
  obtain ⟨o, h⟩ : ∃ o, fX0_hasPlace F p0 s = o := ⟨_, rfl⟩
  rw [h]
  rw [fX0_hasPlace] at h
  refine s_i (cc := cX0_hasPlace) (nL := 2) (own := RX0) hE (cW_WA ad κ) (plainFor_of_name (by decide)) rfl rfl (Nat.le_of_ble_eq_true rfl) (fun Γ G hret => ?_)
  refine r_iload_n G 1 rfl rfl dX0_hasPlace_0 ?_
  refine r_if_lt G (tgt := 16) dX0_hasPlace_1 (by decide) (fun c => ?_) (fun c => ?_)
  · rw [if_pos c] at h
    refine r_iconst G (v := 0) (by decide) dX0_hasPlace_16 ?_
    exact hret _ _ _ _ _ _ dX0_hasPlace_17 ⟨h, rfl⟩ rfl (Nat.le_of_ble_eq_true rfl) (Nat.le_of_ble_eq_true rfl)
  · rw [if_neg c] at h
    refine r_iload_n G 1 rfl rfl dX0_hasPlace_4 ?_
    refine r_aload_n G 0 rfl rfl dX0_hasPlace_5 ?_
    refine r_get G (C := RX0) (T := TX0) (N := 3) kX0_hasPlace_X0 (66 + F) (cw_FAM ad κ _ hF) rfl 2 (by decide) mX0_hasPlace_f22 rfl rfl dX0_hasPlace_6 ?_
    refine r_icmp_ge G (tgt := 16) dX0_hasPlace_9 (by decide) (fun c => ?_) (fun c => ?_)
    · rw [if_pos c] at h
      refine r_iconst G (v := 0) (by decide) dX0_hasPlace_16 ?_
      exact hret _ _ _ _ _ _ dX0_hasPlace_17 ⟨h, rfl⟩ rfl (Nat.le_of_ble_eq_true rfl) (Nat.le_of_ble_eq_true rfl)
    · rw [if_neg c] at h
      refine r_iconst G (v := 1) (by decide) dX0_hasPlace_12 ?_
      refine r_goto G (tgt := 17) dX0_hasPlace_13 (by decide) ?_
      exact hret _ _ _ _ _ _ dX0_hasPlace_17 ⟨h, rfl⟩ rfl (Nat.le_of_ble_eq_true rfl) (Nat.le_of_ble_eq_true rfl)
abbrev rmX0_tell : Room := { frames := 1, cells := 0, slots := 0, locals := 21 }
theorem hdX0_hasPlace : yX0_hasPlace.cls = RX0 ∧ yX0_hasPlace.cls ≠ "java/lang/invoke/MethodHandle" ∧ yX0_hasPlace.cls ≠ "java/lang/invoke/VarHandle" ∧ (parseMethodDescriptor yX0_hasPlace.desc).map (fun d => d.parameters.length) = some 1 := by decide +kernel
set_option maxRecDepth 20000 in
theorem kX0_tell_X0 : ∀ w ∈ u_ws RX0 TX0 3, w ∈ wsX0_tell := by decide +kernel
set_option maxRecDepth 20000 in
theorem mX0_tell_f11 : Cond.fieldLink RX0 11 "SetCouncil$Family" "held" "[LSetCouncil$MemberSet;" ∈ wsX0_tell := by decide +kernel
set_option maxHeartbeats 4000000 in
set_option maxRecDepth 100000 in
theorem qX0_tell {E : evT} {l : Launch} {D : va_G} {ad : Nat → Nat} {κ : Nat → ClassId} (hE : EvOk E) (F : Nat) (hF : F < 2) (p0 : Int32) (p1 : Nat) (hp1 : p1 < 55) (s : cS) {o : (cS)} (h : fX0_tell F p0 p1 s = some o) : Cv l yX0_tell wsX0_tell rmX0_tell (cW ad κ) E D (tyA κ)  [.ref (ad (66 + F)), .int p0, .ref (ad p1)] s (fun s2 => o = s2) := by
  rw [fX0_tell] at h
  refine s_v (cc := cX0_tell) (nL := 3) (own := RX0) hE (cW_WA ad κ) (by decide) rfl rfl (Nat.le_of_ble_eq_true rfl) (fun Γ G hret => ?_)
  refine r_aload_n G 0 rfl rfl dX0_tell_0 ?_
  refine r_iload_n G 1 rfl rfl dX0_tell_1 ?_
  refine r_callVi G [.int p0] (qX0_hasPlace hE F hF p0 _) ⟨(66 + F), 0, _, _, rfl, (cw_FAM ad κ _ hF), rfl⟩ gX0_tell_X0_hasPlace rfl hdX0_hasPlace ⟨Nat.le_of_ble_eq_true rfl, Nat.le_of_ble_eq_true rfl⟩ (Nat.le_of_ble_eq_true rfl) rfl ⟨Nat.le_of_ble_eq_true rfl, Nat.le_of_ble_eq_true rfl⟩ rfl rfl dX0_tell_2 (fun r1 s1 hp hn1 => ?_)
  obtain ⟨rfl, hs⟩ := hp
  have hs := hs.symm
  subst hs
  refine r_if_eq G (tgt := 18) dX0_tell_5 (by decide) (fun c => ?_) (fun c => ?_)
  · rw [if_pos c] at h
    exact hret _ _ _ _ _ dX0_tell_18 (Option.some.inj h).symm (Nat.le_of_ble_eq_true rfl) (Nat.le_of_ble_eq_true rfl)
  · rw [if_neg c] at h
    refine r_aload_n G 2 rfl rfl dX0_tell_8 ?_
    refine r_aload_n G 0 rfl rfl dX0_tell_9 ?_
    refine r_get G (C := RX0) (T := TX0) (N := 3) kX0_tell_X0 (66 + F) (cw_FAM ad κ _ hF) rfl 0 (by decide) mX0_tell_f11 rfl rfl dX0_tell_10 ?_
    refine r_iload_n G 1 rfl rfl dX0_tell_13 ?_
    obtain ⟨g2, h⟩ := og h
    refine r_aldq G (68 + F) 0 (cw_HELD ad κ _ hF) rfl (vin_in g2) rfl dX0_tell_14 ?_
    obtain ⟨o3, e3, h⟩ := ob h
    refine r_callVv G [.ref (ad (8 + 8 * F + p0.toNatClampNeg))] (qX2_become hE p1 hp1 (8 + 8 * F + p0.toNatClampNeg) (by have := vin_lt g2; have := hF; omega) _ e3) ⟨p1, 2, _, _, rfl, (cw_MS ad κ _ hp1), rfl⟩ gX0_tell_X2_become rfl hdX2_become ⟨Nat.le_of_ble_eq_true rfl, Nat.le_of_ble_eq_true rfl⟩ (Nat.le_of_ble_eq_true rfl) rfl ⟨Nat.le_of_ble_eq_true rfl, Nat.le_of_ble_eq_true rfl⟩ rfl rfl dX0_tell_15 (fun s3 hp => ?_)
    have hp := hp.symm
    subst hp
    try dsimp only at h
    exact hret _ _ _ _ _ dX0_tell_18 (Option.some.inj h).symm (Nat.le_of_ble_eq_true rfl) (Nat.le_of_ble_eq_true rfl)
abbrev rmX0_find : Room := { frames := 1, cells := 0, slots := 0, locals := 21 }
set_option maxRecDepth 20000 in
theorem kX0_find_X0 : ∀ w ∈ u_ws RX0 TX0 3, w ∈ wsX0_find := by decide +kernel
set_option maxRecDepth 20000 in
theorem mX0_find_f22 : Cond.fieldLink RX0 22 "SetCouncil$Family" "count" "I" ∈ wsX0_find := by decide +kernel
set_option maxRecDepth 20000 in
theorem mX0_find_f11 : Cond.fieldLink RX0 11 "SetCouncil$Family" "held" "[LSetCouncil$MemberSet;" ∈ wsX0_find := by decide +kernel
theorem hdX2_sameAs : yX2_sameAs.cls = RX2 ∧ yX2_sameAs.cls ≠ "java/lang/invoke/MethodHandle" ∧ yX2_sameAs.cls ≠ "java/lang/invoke/VarHandle" ∧ (parseMethodDescriptor yX2_sameAs.desc).map (fun d => d.parameters.length) = some 1 := by decide +kernel
set_option maxHeartbeats 4000000 in
set_option maxRecDepth 100000 in
theorem wX0_find_L2 {E : evT} {l : Launch} {D : va_G} {ad : Nat → Nat} {κ : Nat → ClassId} (hE : EvOk E) {Γ : cxT} (G : Cx (cW ad κ) D (tyA κ) E l Γ cX0_find RX0 wsX0_find 3 rmX0_find) (z0 : Nat) (hz0 : z0 < 2) (z1 : Nat) (hz1 : z1 < 55) {o : (Int32 × cS)} (hret : ∀ (st2 : cS) (v : Int32) (cells slots pc : Nat) (lv : List (Nat × Value)), decode cX0_find pc = .ok (.ireturn, 1) → o = (v, st2) → narrow .int (.int v) = .int v → cells ≤ rmX0_find.cells → slots ≤ rmX0_find.slots → V (cW ad κ) D Γ st2 cells slots pc lv [.int v]) : ∀ (fuel : Nat) (x2 : Int32) (s : cS), fX0_find_L2 z0 z1 fuel x2 s = some o → V (cW ad κ) D Γ s 0 0 2 [(0, .ref (ad (66 + z0))), (1, .ref (ad z1)), (2, .int x2)] [] := by
  intro fuel
  induction fuel with
  | zero =>
    intro _ _ h
    have h : none = some o := h
    cases h
  | succ fuel ih =>
    intro x2 s h
    rw [fX0_find_L2] at h
    refine r_iload_n G 2 rfl rfl dX0_find_2 ?_
    refine r_aload_n G 0 rfl rfl dX0_find_3 ?_
    refine r_get G (C := RX0) (T := TX0) (N := 3) kX0_find_X0 (66 + z0) (cw_FAM ad κ _ hz0) rfl 2 (by decide) mX0_find_f22 rfl rfl dX0_find_4 ?_
    refine r_icmp_ge G (tgt := 31) dX0_find_7 (by decide) (fun c => ?_) (fun c => ?_)
    · rw [if_pos c] at h
      refine r_iconst G (v := (-1)) (by decide) dX0_find_31 ?_
      exact hret _ _ _ _ _ _ dX0_find_32 (Option.some.inj h).symm rfl (Nat.le_of_ble_eq_true rfl) (Nat.le_of_ble_eq_true rfl)
    · rw [if_neg c] at h
      refine r_aload_n G 0 rfl rfl dX0_find_10 ?_
      refine r_get G (C := RX0) (T := TX0) (N := 3) kX0_find_X0 (66 + z0) (cw_FAM ad κ _ hz0) rfl 0 (by decide) mX0_find_f11 rfl rfl dX0_find_11 ?_
      refine r_iload_n G 2 rfl rfl dX0_find_14 ?_
      obtain ⟨g1, h⟩ := og h
      refine r_aldq G (68 + z0) 0 (cw_HELD ad κ _ hz0) rfl (vin_in g1) rfl dX0_find_15 ?_
      refine r_aload_n G 1 rfl rfl dX0_find_16 ?_
      refine r_callVi G [.ref (ad z1)] (qX2_sameAs hE (8 + 8 * z0 + x2.toNatClampNeg) (by have := vin_lt g1; have := hz0; omega) z1 hz1 _) ⟨(8 + 8 * z0 + x2.toNatClampNeg), 2, _, _, rfl, (cw_MS ad κ _ (by have := vin_lt g1; have := hz0; omega)), rfl⟩ gX0_find_X2_sameAs rfl hdX2_sameAs ⟨Nat.le_of_ble_eq_true rfl, Nat.le_of_ble_eq_true rfl⟩ (Nat.le_of_ble_eq_true rfl) rfl ⟨Nat.le_of_ble_eq_true rfl, Nat.le_of_ble_eq_true rfl⟩ rfl rfl dX0_find_17 (fun r2 s2 hp hn2 => ?_)
      obtain ⟨rfl, hs⟩ := hp
      have hs := hs.symm
      subst hs
      refine r_if_eq G (tgt := 25) dX0_find_20 (by decide) (fun c => ?_) (fun c => ?_)
      · rw [if_pos c] at h
        refine r_iinc G (j := 2) rfl (v := x2 + 1) rfl [1, 2, 0] rfl (by decide) dX0_find_25 ?_
        refine r_goto G (tgt := 2) dX0_find_28 (by decide) ?_
        exact ih _ _ h
      · rw [if_neg c] at h
        refine r_iload_n G 2 rfl rfl dX0_find_23 ?_
        exact hret _ _ _ _ _ _ dX0_find_24 (Option.some.inj h).symm rfl (Nat.le_of_ble_eq_true rfl) (Nat.le_of_ble_eq_true rfl)
set_option maxHeartbeats 4000000 in
set_option maxRecDepth 100000 in
theorem qX0_find {E : evT} {l : Launch} {D : va_G} {ad : Nat → Nat} {κ : Nat → ClassId} (hE : EvOk E) (F : Nat) (hF : F < 2) (p0 : Nat) (hp0 : p0 < 55) (s : cS) {o : (Int32 × cS)} (h : fX0_find F p0 s = some o) : Ci l yX0_find wsX0_find rmX0_find (cW ad κ) E D (tyA κ) .int [.ref (ad (66 + F)), .ref (ad p0)] s (fun r s2 => o = (r, s2)) := by
  rw [fX0_find] at h
  refine s_i (cc := cX0_find) (nL := 3) (own := RX0) hE (cW_WA ad κ) (plainFor_of_name (by decide)) rfl rfl (Nat.le_of_ble_eq_true rfl) (fun Γ G hret => ?_)
  refine r_iconst G (v := 0) (by decide) dX0_find_0 ?_
  refine r_istore_n G [1, 2, 0] rfl rfl (by decide) dX0_find_1 ?_
  refine wX0_find_L2 hE G _ hF _ hp0 hret 1100 _ _ h
abbrev rmX0_enter : Room := { frames := 2, cells := 0, slots := 0, locals := 43 }
theorem hdX0_find : yX0_find.cls = RX0 ∧ yX0_find.cls ≠ "java/lang/invoke/MethodHandle" ∧ yX0_find.cls ≠ "java/lang/invoke/VarHandle" ∧ (parseMethodDescriptor yX0_find.desc).map (fun d => d.parameters.length) = some 1 := by decide +kernel
set_option maxRecDepth 20000 in
theorem kX0_enter_X0 : ∀ w ∈ u_ws RX0 TX0 3, w ∈ wsX0_enter := by decide +kernel
set_option maxRecDepth 20000 in
theorem mX0_enter_f22 : Cond.fieldLink RX0 22 "SetCouncil$Family" "count" "I" ∈ wsX0_enter := by decide +kernel
set_option maxRecDepth 20000 in
theorem mX0_enter_f11 : Cond.fieldLink RX0 11 "SetCouncil$Family" "held" "[LSetCouncil$MemberSet;" ∈ wsX0_enter := by decide +kernel
theorem hdX2_comesBefore : yX2_comesBefore.cls = RX2 ∧ yX2_comesBefore.cls ≠ "java/lang/invoke/MethodHandle" ∧ yX2_comesBefore.cls ≠ "java/lang/invoke/VarHandle" ∧ (parseMethodDescriptor yX2_comesBefore.desc).map (fun d => d.parameters.length) = some 1 := by decide +kernel
set_option maxHeartbeats 4000000 in
set_option maxRecDepth 100000 in
theorem wX0_enter_L27 {E : evT} {l : Launch} {D : va_G} {ad : Nat → Nat} {κ : Nat → ClassId} (hE : EvOk E) {Γ : cxT} (G : Cx (cW ad κ) D (tyA κ) E l Γ cX0_enter RX0 wsX0_enter 3 rmX0_enter) (z0 : Nat) (hz0 : z0 < 2) (z1 : Nat) (hz1 : z1 < 55) {o : (Int32 × cS)} (hret : ∀ (st2 : cS) (v : Int32) (cells slots pc : Nat) (lv : List (Nat × Value)), decode cX0_enter pc = .ok (.ireturn, 1) → o = (v, st2) → narrow .boolean (.int v) = .int v → cells ≤ rmX0_enter.cells → slots ≤ rmX0_enter.slots → V (cW ad κ) D Γ st2 cells slots pc lv [.int v]) {k0 : Int32 → cS → Option (Int32 × cS)} (hk0 : ∀ (y2 : Int32) (s : cS), k0 y2 s = some o → V (cW ad κ) D Γ s 0 0 69 [(0, .ref (ad (66 + z0))), (1, .ref (ad z1)), (2, .int y2)] []) : ∀ (fuel : Nat) (x2 : Int32) (s : cS), fX0_enter_L27 z0 z1 k0 fuel x2 s = some o → V (cW ad κ) D Γ s 0 0 27 [(0, .ref (ad (66 + z0))), (1, .ref (ad z1)), (2, .int x2)] [] := by
  intro fuel
  induction fuel with
  | zero =>
    intro _ _ h
    have h : none = some o := h
    cases h
  | succ fuel ih =>
    intro x2 s h
    rw [fX0_enter_L27] at h
    refine r_iload_n G 2 rfl rfl dX0_enter_27 ?_
    refine r_if_le G (tgt := 69) dX0_enter_28 (by decide) (fun c => ?_) (fun c => ?_)
    · rw [if_pos c] at h
      exact hk0 _ _ h
    · rw [if_neg c] at h
      refine r_aload_n G 1 rfl rfl dX0_enter_31 ?_
      refine r_aload_n G 0 rfl rfl dX0_enter_32 ?_
      refine r_get G (C := RX0) (T := TX0) (N := 3) kX0_enter_X0 (66 + z0) (cw_FAM ad κ _ hz0) rfl 0 (by decide) mX0_enter_f11 rfl rfl dX0_enter_33 ?_
      refine r_iload_n G 2 rfl rfl dX0_enter_36 ?_
      refine r_iconst G (v := 1) (by decide) dX0_enter_37 ?_
      refine r_isub G dX0_enter_38 ?_
      obtain ⟨g2, h⟩ := og h
      refine r_aldq G (68 + z0) 0 (cw_HELD ad κ _ hz0) rfl (vin_in g2) rfl dX0_enter_39 ?_
      refine r_callVi G [.ref (ad (8 + 8 * z0 + (x2 - 1).toNatClampNeg))] (qX2_comesBefore hE z1 hz1 (8 + 8 * z0 + (x2 - 1).toNatClampNeg) (by have := vin_lt g2; have := hz0; omega) _) ⟨z1, 2, _, _, rfl, (cw_MS ad κ _ hz1), rfl⟩ gX0_enter_X2_comesBefore rfl hdX2_comesBefore ⟨Nat.le_of_ble_eq_true rfl, Nat.le_of_ble_eq_true rfl⟩ (Nat.le_of_ble_eq_true rfl) rfl ⟨Nat.le_of_ble_eq_true rfl, Nat.le_of_ble_eq_true rfl⟩ rfl rfl dX0_enter_40 (fun r3 s3 hp hn3 => ?_)
      obtain ⟨rfl, hs⟩ := hp
      have hs := hs.symm
      subst hs
      refine r_if_eq G (tgt := 69) dX0_enter_43 (by decide) (fun c => ?_) (fun c => ?_)
      · rw [if_pos c] at h
        exact hk0 _ _ h
      · rw [if_neg c] at h
        refine r_aload_n G 0 rfl rfl dX0_enter_46 ?_
        refine r_get G (C := RX0) (T := TX0) (N := 3) kX0_enter_X0 (66 + z0) (cw_FAM ad κ _ hz0) rfl 0 (by decide) mX0_enter_f11 rfl rfl dX0_enter_47 ?_
        refine r_iload_n G 2 rfl rfl dX0_enter_50 ?_
        obtain ⟨g4, h⟩ := og h
        refine r_aldq G (68 + z0) 0 (cw_HELD ad κ _ hz0) rfl (vin_in g4) rfl dX0_enter_51 ?_
        refine r_aload_n G 0 rfl rfl dX0_enter_52 ?_
        refine r_get G (C := RX0) (T := TX0) (N := 3) kX0_enter_X0 (66 + z0) (cw_FAM ad κ _ hz0) rfl 0 (by decide) mX0_enter_f11 rfl rfl dX0_enter_53 ?_
        refine r_iload_n G 2 rfl rfl dX0_enter_56 ?_
        refine r_iconst G (v := 1) (by decide) dX0_enter_57 ?_
        refine r_isub G dX0_enter_58 ?_
        obtain ⟨g5, h⟩ := og h
        refine r_aldq G (68 + z0) 0 (cw_HELD ad κ _ hz0) rfl (vin_in g5) rfl dX0_enter_59 ?_
        obtain ⟨o6, e6, h⟩ := ob h
        refine r_callVv G [.ref (ad (8 + 8 * z0 + (x2 - 1).toNatClampNeg))] (qX2_become hE (8 + 8 * z0 + x2.toNatClampNeg) (by have := vin_lt g4; have := hz0; omega) (8 + 8 * z0 + (x2 - 1).toNatClampNeg) (by have := vin_lt g5; have := hz0; omega) _ e6) ⟨(8 + 8 * z0 + x2.toNatClampNeg), 2, _, _, rfl, (cw_MS ad κ _ (by have := vin_lt g4; have := hz0; omega)), rfl⟩ gX0_enter_X2_become rfl hdX2_become ⟨Nat.le_of_ble_eq_true rfl, Nat.le_of_ble_eq_true rfl⟩ (Nat.le_of_ble_eq_true rfl) rfl ⟨Nat.le_of_ble_eq_true rfl, Nat.le_of_ble_eq_true rfl⟩ rfl rfl dX0_enter_60 (fun s6 hp => ?_)
        have hp := hp.symm
        subst hp
        try dsimp only at h
        refine r_iinc G (j := 2) rfl (v := x2 + (-1)) (iincm _) [1, 2, 0] rfl (by decide) dX0_enter_63 ?_
        refine r_goto G (tgt := 27) dX0_enter_66 (by decide) ?_
        exact ih _ _ h
set_option maxHeartbeats 4000000 in
set_option maxRecDepth 100000 in
theorem qX0_enter {E : evT} {l : Launch} {D : va_G} {ad : Nat → Nat} {κ : Nat → ClassId} (hE : EvOk E) (F : Nat) (hF : F < 2) (p0 : Nat) (hp0 : p0 < 55) (s : cS) {o : (Int32 × cS)} (h : fX0_enter F p0 s = some o) : Ci l yX0_enter wsX0_enter rmX0_enter (cW ad κ) E D (tyA κ) .boolean [.ref (ad (66 + F)), .ref (ad p0)] s (fun r s2 => o = (r, s2)) := by
  rw [fX0_enter] at h
  refine s_i (cc := cX0_enter) (nL := 3) (own := RX0) hE (cW_WA ad κ) (plainFor_of_name (by decide)) rfl rfl (Nat.le_of_ble_eq_true rfl) (fun Γ G hret => ?_)
  refine r_aload_n G 0 rfl rfl dX0_enter_0 ?_
  refine r_aload_n G 1 rfl rfl dX0_enter_1 ?_
  obtain ⟨o1, e1, h⟩ := ob h
  refine r_callVi G [.ref (ad p0)] (qX0_find hE F hF p0 hp0 _ e1) ⟨(66 + F), 0, _, _, rfl, (cw_FAM ad κ _ hF), rfl⟩ gX0_enter_X0_find rfl hdX0_find ⟨Nat.le_of_ble_eq_true rfl, Nat.le_of_ble_eq_true rfl⟩ (Nat.le_of_ble_eq_true rfl) rfl ⟨Nat.le_of_ble_eq_true rfl, Nat.le_of_ble_eq_true rfl⟩ rfl rfl dX0_enter_2 (fun r1 s1 hp hn1 => ?_)
  subst hp
  try dsimp only at h
  refine r_iconst G (v := (-1)) (by decide) dX0_enter_5 ?_
  refine r_icmp_eq G (tgt := 11) dX0_enter_6 (by decide) (fun c => ?_) (fun c => ?_)
  · rw [if_pos c] at h
    refine r_aload_n G 0 rfl rfl dX0_enter_11 ?_
    refine r_get G (C := RX0) (T := TX0) (N := 3) kX0_enter_X0 (66 + F) (cw_FAM ad κ _ hF) rfl 2 (by decide) mX0_enter_f22 rfl rfl dX0_enter_12 ?_
    refine r_bipush G (v := 7) (by decide) dX0_enter_15 ?_
    refine r_icmp_lt G (tgt := 22) dX0_enter_17 (by decide) (fun c => ?_) (fun c => ?_)
    · rw [if_pos c] at h
      refine r_aload_n G 0 rfl rfl dX0_enter_22 ?_
      refine r_get G (C := RX0) (T := TX0) (N := 3) kX0_enter_X0 (66 + F) (cw_FAM ad κ _ hF) rfl 2 (by decide) mX0_enter_f22 rfl rfl dX0_enter_23 ?_
      refine r_istore_n G [1, 2, 0] rfl rfl (by decide) dX0_enter_26 ?_
      refine wX0_enter_L27 hE G _ hF _ hp0 hret (fun y2_7 s7 h => ?_) 1100 _ _ h
      · try dsimp only at h
        refine r_aload_n G 0 rfl rfl dX0_enter_69 ?_
        refine r_get G (C := RX0) (T := TX0) (N := 3) kX0_enter_X0 (66 + F) (cw_FAM ad κ _ hF) rfl 0 (by decide) mX0_enter_f11 rfl rfl dX0_enter_70 ?_
        refine r_iload_n G 2 rfl rfl dX0_enter_73 ?_
        obtain ⟨g8, h⟩ := og h
        refine r_aldq G (68 + F) 0 (cw_HELD ad κ _ hF) rfl (vin_in g8) rfl dX0_enter_74 ?_
        refine r_aload_n G 1 rfl rfl dX0_enter_75 ?_
        obtain ⟨o9, e9, h⟩ := ob h
        refine r_callVv G [.ref (ad p0)] (qX2_become hE (8 + 8 * F + y2_7.toNatClampNeg) (by have := vin_lt g8; have := hF; omega) p0 hp0 _ e9) ⟨(8 + 8 * F + y2_7.toNatClampNeg), 2, _, _, rfl, (cw_MS ad κ _ (by have := vin_lt g8; have := hF; omega)), rfl⟩ gX0_enter_X2_become rfl hdX2_become ⟨Nat.le_of_ble_eq_true rfl, Nat.le_of_ble_eq_true rfl⟩ (Nat.le_of_ble_eq_true rfl) rfl ⟨Nat.le_of_ble_eq_true rfl, Nat.le_of_ble_eq_true rfl⟩ rfl rfl dX0_enter_76 (fun s9 hp => ?_)
        have hp := hp.symm
        subst hp
        try dsimp only at h
        refine r_aload_n G 0 rfl rfl dX0_enter_79 ?_
        refine r_dup G rfl dX0_enter_80 ?_
        refine r_get G (C := RX0) (T := TX0) (N := 3) kX0_enter_X0 (66 + F) (cw_FAM ad κ _ hF) rfl 2 (by decide) mX0_enter_f22 rfl rfl dX0_enter_81 ?_
        refine r_iconst G (v := 1) (by decide) dX0_enter_84 ?_
        refine r_iadd G dX0_enter_85 ?_
        refine r_put G (C := RX0) (T := TX0) (N := 3) kX0_enter_X0 tyX0 tyX0_ok nmX0 (66 + F) (cw_FAM ad κ _ hF) rfl 2 (by decide) mX0_enter_f22 rfl rfl (tyX0_ok 2 (by decide)) rfl rfl (Nat.le_of_ble_eq_true rfl) (cu_COUNT ad κ _ hF _) dX0_enter_86 ?_
        refine r_iconst G (v := 1) (by decide) dX0_enter_89 ?_
        exact hret _ _ _ _ _ _ dX0_enter_90 (Option.some.inj h).symm rfl (Nat.le_of_ble_eq_true rfl) (Nat.le_of_ble_eq_true rfl)
    · rw [if_neg c] at h
      refine r_iconst G (v := 0) (by decide) dX0_enter_20 ?_
      exact hret _ _ _ _ _ _ dX0_enter_21 (Option.some.inj h).symm rfl (Nat.le_of_ble_eq_true rfl) (Nat.le_of_ble_eq_true rfl)
  · rw [if_neg c] at h
    refine r_iconst G (v := 1) (by decide) dX0_enter_9 ?_
    exact hret _ _ _ _ _ _ dX0_enter_10 (Option.some.inj h).symm rfl (Nat.le_of_ble_eq_true rfl) (Nat.le_of_ble_eq_true rfl)
abbrev rmX0_leave : Room := { frames := 2, cells := 0, slots := 0, locals := 43 }
set_option maxRecDepth 20000 in
theorem kX0_leave_X0 : ∀ w ∈ u_ws RX0 TX0 3, w ∈ wsX0_leave := by decide +kernel
set_option maxRecDepth 20000 in
theorem mX0_leave_f22 : Cond.fieldLink RX0 22 "SetCouncil$Family" "count" "I" ∈ wsX0_leave := by decide +kernel
set_option maxRecDepth 20000 in
theorem mX0_leave_f11 : Cond.fieldLink RX0 11 "SetCouncil$Family" "held" "[LSetCouncil$MemberSet;" ∈ wsX0_leave := by decide +kernel
set_option maxHeartbeats 4000000 in
set_option maxRecDepth 100000 in
theorem wX0_leave_L17 {E : evT} {l : Launch} {D : va_G} {ad : Nat → Nat} {κ : Nat → ClassId} (hE : EvOk E) {Γ : cxT} (G : Cx (cW ad κ) D (tyA κ) E l Γ cX0_leave RX0 wsX0_leave 4 rmX0_leave) (z0 : Nat) (hz0 : z0 < 2) {o : (Int32 × cS)} (hret : ∀ (st2 : cS) (v : Int32) (cells slots pc : Nat) (lv : List (Nat × Value)), decode cX0_leave pc = .ok (.ireturn, 1) → o = (v, st2) → narrow .boolean (.int v) = .int v → cells ≤ rmX0_leave.cells → slots ≤ rmX0_leave.slots → V (cW ad κ) D Γ st2 cells slots pc lv [.int v]) {k0 : cS → Option (Int32 × cS)} (hk0 : ∀ (s : cS), k0 s = some o → V (cW ad κ) D Γ s 0 0 48 [(0, .ref (ad (66 + z0)))] []) : ∀ (fuel : Nat) (x3 : Int32) (s : cS), fX0_leave_L17 z0 k0 fuel x3 s = some o → V (cW ad κ) D Γ s 0 0 17 [(0, .ref (ad (66 + z0))), (3, .int x3)] [] := by
  intro fuel
  induction fuel with
  | zero =>
    intro _ _ h
    have h : none = some o := h
    cases h
  | succ fuel ih =>
    intro x3 s h
    rw [fX0_leave_L17] at h
    refine r_iload_n G 1 rfl rfl dX0_leave_17 ?_
    refine r_aload_n G 0 rfl rfl dX0_leave_18 ?_
    refine r_get G (C := RX0) (T := TX0) (N := 3) kX0_leave_X0 (66 + z0) (cw_FAM ad κ _ hz0) rfl 2 (by decide) mX0_leave_f22 rfl rfl dX0_leave_19 ?_
    refine r_icmp_ge G (tgt := 48) dX0_leave_22 (by decide) (fun c => ?_) (fun c => ?_)
    · rw [if_pos c] at h
      refine V.sub [0] rfl ?_
      exact hk0 _ h
    · rw [if_neg c] at h
      refine r_aload_n G 0 rfl rfl dX0_leave_25 ?_
      refine r_get G (C := RX0) (T := TX0) (N := 3) kX0_leave_X0 (66 + z0) (cw_FAM ad κ _ hz0) rfl 0 (by decide) mX0_leave_f11 rfl rfl dX0_leave_26 ?_
      refine r_iload_n G 1 rfl rfl dX0_leave_29 ?_
      refine r_iconst G (v := 1) (by decide) dX0_leave_30 ?_
      refine r_isub G dX0_leave_31 ?_
      obtain ⟨g2, h⟩ := og h
      refine r_aldq G (68 + z0) 0 (cw_HELD ad κ _ hz0) rfl (vin_in g2) rfl dX0_leave_32 ?_
      refine r_aload_n G 0 rfl rfl dX0_leave_33 ?_
      refine r_get G (C := RX0) (T := TX0) (N := 3) kX0_leave_X0 (66 + z0) (cw_FAM ad κ _ hz0) rfl 0 (by decide) mX0_leave_f11 rfl rfl dX0_leave_34 ?_
      refine r_iload_n G 1 rfl rfl dX0_leave_37 ?_
      obtain ⟨g3, h⟩ := og h
      refine r_aldq G (68 + z0) 0 (cw_HELD ad κ _ hz0) rfl (vin_in g3) rfl dX0_leave_38 ?_
      obtain ⟨o4, e4, h⟩ := ob h
      refine r_callVv G [.ref (ad (8 + 8 * z0 + x3.toNatClampNeg))] (qX2_become hE (8 + 8 * z0 + (x3 - 1).toNatClampNeg) (by have := vin_lt g2; have := hz0; omega) (8 + 8 * z0 + x3.toNatClampNeg) (by have := vin_lt g3; have := hz0; omega) _ e4) ⟨(8 + 8 * z0 + (x3 - 1).toNatClampNeg), 2, _, _, rfl, (cw_MS ad κ _ (by have := vin_lt g2; have := hz0; omega)), rfl⟩ gX0_leave_X2_become rfl hdX2_become ⟨Nat.le_of_ble_eq_true rfl, Nat.le_of_ble_eq_true rfl⟩ (Nat.le_of_ble_eq_true rfl) rfl ⟨Nat.le_of_ble_eq_true rfl, Nat.le_of_ble_eq_true rfl⟩ rfl rfl dX0_leave_39 (fun s4 hp => ?_)
      have hp := hp.symm
      subst hp
      try dsimp only at h
      refine r_iinc G (j := 1) rfl (v := x3 + 1) rfl [1, 0] rfl (by decide) dX0_leave_42 ?_
      refine r_goto G (tgt := 17) dX0_leave_45 (by decide) ?_
      exact ih _ _ h
set_option maxHeartbeats 4000000 in
set_option maxRecDepth 100000 in
theorem qX0_leave {E : evT} {l : Launch} {D : va_G} {ad : Nat → Nat} {κ : Nat → ClassId} (hE : EvOk E) (F : Nat) (hF : F < 2) (p0 : Nat) (hp0 : p0 < 55) (s : cS) {o : (Int32 × cS)} (h : fX0_leave F p0 s = some o) : Ci l yX0_leave wsX0_leave rmX0_leave (cW ad κ) E D (tyA κ) .boolean [.ref (ad (66 + F)), .ref (ad p0)] s (fun r s2 => o = (r, s2)) := by
  rw [fX0_leave] at h
  refine s_i (cc := cX0_leave) (nL := 4) (own := RX0) hE (cW_WA ad κ) (plainFor_of_name (by decide)) rfl rfl (Nat.le_of_ble_eq_true rfl) (fun Γ G hret => ?_)
  refine r_aload_n G 0 rfl rfl dX0_leave_0 ?_
  refine r_aload_n G 1 rfl rfl dX0_leave_1 ?_
  obtain ⟨o1, e1, h⟩ := ob h
  refine r_callVi G [.ref (ad p0)] (qX0_find hE F hF p0 hp0 _ e1) ⟨(66 + F), 0, _, _, rfl, (cw_FAM ad κ _ hF), rfl⟩ gX0_leave_X0_find rfl hdX0_find ⟨Nat.le_of_ble_eq_true rfl, Nat.le_of_ble_eq_true rfl⟩ (Nat.le_of_ble_eq_true rfl) rfl ⟨Nat.le_of_ble_eq_true rfl, Nat.le_of_ble_eq_true rfl⟩ rfl rfl dX0_leave_2 (fun r1 s1 hp hn1 => ?_)
  subst hp
  try dsimp only at h
  refine r_istore_n G [1, 0] rfl rfl (by decide) dX0_leave_5 ?_
  refine r_iload_n G 1 rfl rfl dX0_leave_6 ?_
  refine r_iconst G (v := (-1)) (by decide) dX0_leave_7 ?_
  refine r_icmp_ne G (tgt := 13) dX0_leave_8 (by decide) (fun c => ?_) (fun c => ?_)
  · rw [if_neg c] at h
    refine r_iload_n G 1 rfl rfl dX0_leave_13 ?_
    refine r_iconst G (v := 1) (by decide) dX0_leave_14 ?_
    refine r_iadd G dX0_leave_15 ?_
    refine r_istore_n G [1, 0] rfl rfl (by decide) dX0_leave_16 ?_
    refine wX0_leave_L17 hE G _ hF hret (fun s5 h => ?_) 1100 _ _ h
    · try dsimp only at h
      refine r_aload_n G 0 rfl rfl dX0_leave_48 ?_
      refine r_dup G rfl dX0_leave_49 ?_
      refine r_get G (C := RX0) (T := TX0) (N := 3) kX0_leave_X0 (66 + F) (cw_FAM ad κ _ hF) rfl 2 (by decide) mX0_leave_f22 rfl rfl dX0_leave_50 ?_
      refine r_iconst G (v := 1) (by decide) dX0_leave_53 ?_
      refine r_isub G dX0_leave_54 ?_
      refine r_put G (C := RX0) (T := TX0) (N := 3) kX0_leave_X0 tyX0 tyX0_ok nmX0 (66 + F) (cw_FAM ad κ _ hF) rfl 2 (by decide) mX0_leave_f22 rfl rfl (tyX0_ok 2 (by decide)) rfl rfl (Nat.le_of_ble_eq_true rfl) (cu_COUNT ad κ _ hF _) dX0_leave_55 ?_
      refine r_iconst G (v := 1) (by decide) dX0_leave_58 ?_
      exact hret _ _ _ _ _ _ dX0_leave_59 (Option.some.inj h).symm rfl (Nat.le_of_ble_eq_true rfl) (Nat.le_of_ble_eq_true rfl)
  · rw [if_pos c] at h
    refine r_iconst G (v := 0) (by decide) dX0_leave_11 ?_
    exact hret _ _ _ _ _ _ dX0_leave_12 (Option.some.inj h).symm rfl (Nat.le_of_ble_eq_true rfl) (Nat.le_of_ble_eq_true rfl)
abbrev rmX0_make : Room := { frames := 1, cells := 0, slots := 0, locals := 26 }
set_option maxRecDepth 20000 in
theorem kX0_make_X0 : ∀ w ∈ u_ws RX0 TX0 3, w ∈ wsX0_make := by decide +kernel
set_option maxRecDepth 20000 in
theorem mX0_make_f18 : Cond.fieldLink RX0 18 "SetCouncil$Family" "made" "LSetCouncil$MemberSet;" ∈ wsX0_make := by decide +kernel
set_option maxRecDepth 20000 in
theorem mX0_make_f11 : Cond.fieldLink RX0 11 "SetCouncil$Family" "held" "[LSetCouncil$MemberSet;" ∈ wsX0_make := by decide +kernel
theorem hdX2_combine : yX2_combine.cls = RX2 ∧ yX2_combine.cls ≠ "java/lang/invoke/MethodHandle" ∧ yX2_combine.cls ≠ "java/lang/invoke/VarHandle" ∧ (parseMethodDescriptor yX2_combine.desc).map (fun d => d.parameters.length) = some 2 := by decide +kernel
set_option maxHeartbeats 4000000 in
set_option maxRecDepth 100000 in
theorem qX0_make {E : evT} {l : Launch} {D : va_G} {ad : Nat → Nat} {κ : Nat → ClassId} (hE : EvOk E) (F : Nat) (hF : F < 2) (p0 : Int32) (p1 : Int32) (p2 : Int32) (s : cS) {o : (cS)} (h : fX0_make F p0 p1 p2 s = some o) : Cv l yX0_make wsX0_make rmX0_make (cW ad κ) E D (tyA κ)  [.ref (ad (66 + F)), .int p0, .int p1, .int p2] s (fun s2 => o = s2) := by
  rw [fX0_make] at h
  refine s_v (cc := cX0_make) (nL := 4) (own := RX0) hE (cW_WA ad κ) (by decide) rfl rfl (Nat.le_of_ble_eq_true rfl) (fun Γ G hret => ?_)
  refine r_aload_n G 0 rfl rfl dX0_make_0 ?_
  refine r_get G (C := RX0) (T := TX0) (N := 3) kX0_make_X0 (66 + F) (cw_FAM ad κ _ hF) rfl 1 (by decide) mX0_make_f18 rfl rfl dX0_make_1 ?_
  refine r_aload_n G 0 rfl rfl dX0_make_4 ?_
  refine r_get G (C := RX0) (T := TX0) (N := 3) kX0_make_X0 (66 + F) (cw_FAM ad κ _ hF) rfl 0 (by decide) mX0_make_f11 rfl rfl dX0_make_5 ?_
  refine r_iload_n G 2 rfl rfl dX0_make_8 ?_
  obtain ⟨g1, h⟩ := og h
  refine r_aldq G (68 + F) 0 (cw_HELD ad κ _ hF) rfl (vin_in g1) rfl dX0_make_9 ?_
  obtain ⟨o2, e2, h⟩ := ob h
  refine r_callVv G [.ref (ad (8 + 8 * F + p1.toNatClampNeg))] (qX2_become hE (15 + 8 * F) (by have := hF; omega) (8 + 8 * F + p1.toNatClampNeg) (by have := vin_lt g1; have := hF; omega) _ e2) ⟨(15 + 8 * F), 2, _, _, rfl, (cw_MS ad κ _ (by have := hF; omega)), rfl⟩ gX0_make_X2_become rfl hdX2_become ⟨Nat.le_of_ble_eq_true rfl, Nat.le_of_ble_eq_true rfl⟩ (Nat.le_of_ble_eq_true rfl) rfl ⟨Nat.le_of_ble_eq_true rfl, Nat.le_of_ble_eq_true rfl⟩ rfl rfl dX0_make_10 (fun s2 hp => ?_)
  have hp := hp.symm
  subst hp
  try dsimp only at h
  refine r_aload_n G 0 rfl rfl dX0_make_13 ?_
  refine r_get G (C := RX0) (T := TX0) (N := 3) kX0_make_X0 (66 + F) (cw_FAM ad κ _ hF) rfl 1 (by decide) mX0_make_f18 rfl rfl dX0_make_14 ?_
  refine r_iload_n G 1 rfl rfl dX0_make_17 ?_
  refine r_aload_n G 0 rfl rfl dX0_make_18 ?_
  refine r_get G (C := RX0) (T := TX0) (N := 3) kX0_make_X0 (66 + F) (cw_FAM ad κ _ hF) rfl 0 (by decide) mX0_make_f11 rfl rfl dX0_make_19 ?_
  refine r_iload_n G 3 rfl rfl dX0_make_22 ?_
  obtain ⟨g3, h⟩ := og h
  refine r_aldq G (68 + F) 0 (cw_HELD ad κ _ hF) rfl (vin_in g3) rfl dX0_make_23 ?_
  obtain ⟨o4, e4, h⟩ := ob h
  refine r_callVi G [.int p0, .ref (ad (8 + 8 * F + p2.toNatClampNeg))] (qX2_combine hE (15 + 8 * F) (by have := hF; omega) p0 (8 + 8 * F + p2.toNatClampNeg) (by have := vin_lt g3; have := hF; omega) _ e4) ⟨(15 + 8 * F), 2, _, _, rfl, (cw_MS ad κ _ (by have := hF; omega)), rfl⟩ gX0_make_X2_combine rfl hdX2_combine ⟨Nat.le_of_ble_eq_true rfl, Nat.le_of_ble_eq_true rfl⟩ (Nat.le_of_ble_eq_true rfl) rfl ⟨Nat.le_of_ble_eq_true rfl, Nat.le_of_ble_eq_true rfl⟩ rfl rfl dX0_make_24 (fun r4 s4 hp hn4 => ?_)
  subst hp
  try dsimp only at h
  refine r_pop G rfl dX0_make_27 ?_
  exact hret _ _ _ _ _ dX0_make_28 (Option.some.inj h).symm (Nat.le_of_ble_eq_true rfl) (Nat.le_of_ble_eq_true rfl)
abbrev rmX0_spreadInto : Room := { frames := 3, cells := 0, slots := 0, locals := 65 }
set_option maxRecDepth 20000 in
theorem kX0_spreadInto_X0 : ∀ w ∈ u_ws RX0 TX0 3, w ∈ wsX0_spreadInto := by decide +kernel
set_option maxRecDepth 20000 in
theorem mX0_spreadInto_f22 : Cond.fieldLink RX0 22 "SetCouncil$Family" "count" "I" ∈ wsX0_spreadInto := by decide +kernel
theorem hdX0_make : yX0_make.cls = RX0 ∧ yX0_make.cls ≠ "java/lang/invoke/MethodHandle" ∧ yX0_make.cls ≠ "java/lang/invoke/VarHandle" ∧ (parseMethodDescriptor yX0_make.desc).map (fun d => d.parameters.length) = some 3 := by decide +kernel
set_option maxRecDepth 20000 in
theorem mX0_spreadInto_f18 : Cond.fieldLink RX0 18 "SetCouncil$Family" "made" "LSetCouncil$MemberSet;" ∈ wsX0_spreadInto := by decide +kernel
theorem hdX0_enter : yX0_enter.cls = RX0 ∧ yX0_enter.cls ≠ "java/lang/invoke/MethodHandle" ∧ yX0_enter.cls ≠ "java/lang/invoke/VarHandle" ∧ (parseMethodDescriptor yX0_enter.desc).map (fun d => d.parameters.length) = some 1 := by decide +kernel
set_option maxHeartbeats 4000000 in
set_option maxRecDepth 100000 in
theorem wX0_spreadInto_L13 {E : evT} {l : Launch} {D : va_G} {ad : Nat → Nat} {κ : Nat → ClassId} (hE : EvOk E) {Γ : cxT} (G : Cx (cW ad κ) D (tyA κ) E l Γ cX0_spreadInto RX0 wsX0_spreadInto 5 rmX0_spreadInto) (z0 : Nat) (hz0 : z0 < 2) (z1 : Nat) (hz1 : z1 < 2) (x2 : Int32) (x3 : Int32) {o : (Int32 × cS)} (hret : ∀ (st2 : cS) (v : Int32) (cells slots pc : Nat) (lv : List (Nat × Value)), decode cX0_spreadInto pc = .ok (.ireturn, 1) → o = (v, st2) → narrow .boolean (.int v) = .int v → cells ≤ rmX0_spreadInto.cells → slots ≤ rmX0_spreadInto.slots → V (cW ad κ) D Γ st2 cells slots pc lv [.int v]) {k0 : cS → Option (Int32 × cS)} (hk0 : ∀ (s : cS), k0 s = some o → V (cW ad κ) D Γ s 0 0 55 [(0, .ref (ad (66 + z0))), (1, .ref (ad (66 + z1))), (2, .int x2), (3, .int x3)] []) : ∀ (fuel : Nat) (x4 : Int32) (s : cS), fX0_spreadInto_L13 z0 z1 x2 x3 k0 fuel x4 s = some o → V (cW ad κ) D Γ s 0 0 13 [(0, .ref (ad (66 + z0))), (1, .ref (ad (66 + z1))), (2, .int x2), (3, .int x3), (4, .int x4)] [] := by
  intro fuel
  induction fuel with
  | zero =>
    intro _ _ h
    have h : none = some o := h
    cases h
  | succ fuel ih =>
    intro x4 s h
    rw [fX0_spreadInto_L13] at h
    refine r_iload G 4 rfl dX0_spreadInto_13 ?_
    refine r_aload_n G 0 rfl rfl dX0_spreadInto_15 ?_
    refine r_get G (C := RX0) (T := TX0) (N := 3) kX0_spreadInto_X0 (66 + z0) (cw_FAM ad κ _ hz0) rfl 2 (by decide) mX0_spreadInto_f22 rfl rfl dX0_spreadInto_16 ?_
    refine r_icmp_ge G (tgt := 55) dX0_spreadInto_19 (by decide) (fun c => ?_) (fun c => ?_)
    · rw [if_pos c] at h
      refine V.sub [0, 1, 2, 3] rfl ?_
      exact hk0 _ h
    · rw [if_neg c] at h
      refine r_iload_n G 3 rfl rfl dX0_spreadInto_22 ?_
      refine r_iload G 4 rfl dX0_spreadInto_23 ?_
      refine r_icmp_eq G (tgt := 49) dX0_spreadInto_25 (by decide) (fun c => ?_) (fun c => ?_)
      · rw [if_pos c] at h
        refine r_iinc G (j := 4) rfl (v := x4 + 1) rfl [1, 2, 3, 4, 0] rfl (by decide) dX0_spreadInto_49 ?_
        refine r_goto G (tgt := 13) dX0_spreadInto_52 (by decide) ?_
        exact ih _ _ h
      · rw [if_neg c] at h
        refine r_aload_n G 0 rfl rfl dX0_spreadInto_28 ?_
        refine r_iload_n G 2 rfl rfl dX0_spreadInto_29 ?_
        refine r_iload_n G 3 rfl rfl dX0_spreadInto_30 ?_
        refine r_iload G 4 rfl dX0_spreadInto_31 ?_
        obtain ⟨o1, e1, h⟩ := ob h
        refine r_callVv G [.int x2, .int x3, .int x4] (qX0_make hE z0 hz0 x2 x3 x4 _ e1) ⟨(66 + z0), 0, _, _, rfl, (cw_FAM ad κ _ hz0), rfl⟩ gX0_spreadInto_X0_make rfl hdX0_make ⟨Nat.le_of_ble_eq_true rfl, Nat.le_of_ble_eq_true rfl⟩ (Nat.le_of_ble_eq_true rfl) rfl ⟨Nat.le_of_ble_eq_true rfl, Nat.le_of_ble_eq_true rfl⟩ rfl rfl dX0_spreadInto_33 (fun s1 hp => ?_)
        have hp := hp.symm
        subst hp
        try dsimp only at h
        refine r_aload_n G 1 rfl rfl dX0_spreadInto_36 ?_
        refine r_aload_n G 0 rfl rfl dX0_spreadInto_37 ?_
        refine r_get G (C := RX0) (T := TX0) (N := 3) kX0_spreadInto_X0 (66 + z0) (cw_FAM ad κ _ hz0) rfl 1 (by decide) mX0_spreadInto_f18 rfl rfl dX0_spreadInto_38 ?_
        obtain ⟨o2, e2, h⟩ := ob h
        refine r_callVi G [.ref (ad (15 + 8 * z0))] (qX0_enter hE z1 hz1 (15 + 8 * z0) (by have := hz0; omega) _ e2) ⟨(66 + z1), 0, _, _, rfl, (cw_FAM ad κ _ hz1), rfl⟩ gX0_spreadInto_X0_enter rfl hdX0_enter ⟨Nat.le_of_ble_eq_true rfl, Nat.le_of_ble_eq_true rfl⟩ (Nat.le_of_ble_eq_true rfl) rfl ⟨Nat.le_of_ble_eq_true rfl, Nat.le_of_ble_eq_true rfl⟩ rfl rfl dX0_spreadInto_41 (fun r2 s2 hp hn2 => ?_)
        subst hp
        try dsimp only at h
        refine r_if_ne G (tgt := 49) dX0_spreadInto_44 (by decide) (fun c => ?_) (fun c => ?_)
        · rw [if_neg c] at h
          refine r_iinc G (j := 4) rfl (v := x4 + 1) rfl [1, 2, 3, 4, 0] rfl (by decide) dX0_spreadInto_49 ?_
          refine r_goto G (tgt := 13) dX0_spreadInto_52 (by decide) ?_
          exact ih _ _ h
        · rw [if_pos c] at h
          refine r_iconst G (v := 0) (by decide) dX0_spreadInto_47 ?_
          exact hret _ _ _ _ _ _ dX0_spreadInto_48 (Option.some.inj h).symm rfl (Nat.le_of_ble_eq_true rfl) (Nat.le_of_ble_eq_true rfl)
set_option maxHeartbeats 4000000 in
set_option maxRecDepth 100000 in
theorem wX0_spreadInto_L2 {E : evT} {l : Launch} {D : va_G} {ad : Nat → Nat} {κ : Nat → ClassId} (hE : EvOk E) {Γ : cxT} (G : Cx (cW ad κ) D (tyA κ) E l Γ cX0_spreadInto RX0 wsX0_spreadInto 5 rmX0_spreadInto) (z0 : Nat) (hz0 : z0 < 2) (z1 : Nat) (hz1 : z1 < 2) (x2 : Int32) {o : (Int32 × cS)} (hret : ∀ (st2 : cS) (v : Int32) (cells slots pc : Nat) (lv : List (Nat × Value)), decode cX0_spreadInto pc = .ok (.ireturn, 1) → o = (v, st2) → narrow .boolean (.int v) = .int v → cells ≤ rmX0_spreadInto.cells → slots ≤ rmX0_spreadInto.slots → V (cW ad κ) D Γ st2 cells slots pc lv [.int v]) : ∀ (fuel : Nat) (x3 : Int32) (s : cS), fX0_spreadInto_L2 z0 z1 x2 fuel x3 s = some o → V (cW ad κ) D Γ s 0 0 2 [(0, .ref (ad (66 + z0))), (1, .ref (ad (66 + z1))), (2, .int x2), (3, .int x3)] [] := by
  intro fuel
  induction fuel with
  | zero =>
    intro _ _ h
    have h : none = some o := h
    cases h
  | succ fuel ih =>
    intro x3 s h
    rw [fX0_spreadInto_L2] at h
    refine r_iload_n G 3 rfl rfl dX0_spreadInto_2 ?_
    refine r_aload_n G 0 rfl rfl dX0_spreadInto_3 ?_
    refine r_get G (C := RX0) (T := TX0) (N := 3) kX0_spreadInto_X0 (66 + z0) (cw_FAM ad κ _ hz0) rfl 2 (by decide) mX0_spreadInto_f22 rfl rfl dX0_spreadInto_4 ?_
    refine r_icmp_ge G (tgt := 61) dX0_spreadInto_7 (by decide) (fun c => ?_) (fun c => ?_)
    · rw [if_pos c] at h
      refine r_iconst G (v := 1) (by decide) dX0_spreadInto_61 ?_
      exact hret _ _ _ _ _ _ dX0_spreadInto_62 (Option.some.inj h).symm rfl (Nat.le_of_ble_eq_true rfl) (Nat.le_of_ble_eq_true rfl)
    · rw [if_neg c] at h
      refine r_iconst G (v := 0) (by decide) dX0_spreadInto_10 ?_
      refine r_istore G [1, 2, 3, 4, 0] rfl (by decide) dX0_spreadInto_11 ?_
      refine wX0_spreadInto_L13 hE G _ hz0 _ hz1 _ _ hret (fun s3 h => ?_) 1100 _ _ h
      · try dsimp only at h
        refine r_iinc G (j := 3) rfl (v := x3 + 1) rfl [1, 2, 3, 0] rfl (by decide) dX0_spreadInto_55 ?_
        refine r_goto G (tgt := 2) dX0_spreadInto_58 (by decide) ?_
        exact ih _ _ h
set_option maxHeartbeats 4000000 in
set_option maxRecDepth 100000 in
theorem qX0_spreadInto {E : evT} {l : Launch} {D : va_G} {ad : Nat → Nat} {κ : Nat → ClassId} (hE : EvOk E) (F : Nat) (hF : F < 2) (p0 : Nat) (hp0 : p0 < 2) (p1 : Int32) (s : cS) {o : (Int32 × cS)} (h : fX0_spreadInto F p0 p1 s = some o) : Ci l yX0_spreadInto wsX0_spreadInto rmX0_spreadInto (cW ad κ) E D (tyA κ) .boolean [.ref (ad (66 + F)), .ref (ad (66 + p0)), .int p1] s (fun r s2 => o = (r, s2)) := by
  rw [fX0_spreadInto] at h
  refine s_i (cc := cX0_spreadInto) (nL := 5) (own := RX0) hE (cW_WA ad κ) (plainFor_of_name (by decide)) rfl rfl (Nat.le_of_ble_eq_true rfl) (fun Γ G hret => ?_)
  refine r_iconst G (v := 0) (by decide) dX0_spreadInto_0 ?_
  refine r_istore_n G [1, 2, 3, 0] rfl rfl (by decide) dX0_spreadInto_1 ?_
  refine wX0_spreadInto_L2 hE G _ hF _ hp0 _ hret 1100 _ _ h
abbrev rmX0_closedUnder : Room := { frames := 2, cells := 0, slots := 0, locals := 49 }
set_option maxRecDepth 20000 in
theorem kX0_closedUnder_X0 : ∀ w ∈ u_ws RX0 TX0 3, w ∈ wsX0_closedUnder := by decide +kernel
set_option maxRecDepth 20000 in
theorem mX0_closedUnder_f22 : Cond.fieldLink RX0 22 "SetCouncil$Family" "count" "I" ∈ wsX0_closedUnder := by decide +kernel
set_option maxRecDepth 20000 in
theorem mX0_closedUnder_f18 : Cond.fieldLink RX0 18 "SetCouncil$Family" "made" "LSetCouncil$MemberSet;" ∈ wsX0_closedUnder := by decide +kernel
set_option maxHeartbeats 4000000 in
set_option maxRecDepth 100000 in
theorem wX0_closedUnder_L12 {E : evT} {l : Launch} {D : va_G} {ad : Nat → Nat} {κ : Nat → ClassId} (hE : EvOk E) {Γ : cxT} (G : Cx (cW ad κ) D (tyA κ) E l Γ cX0_closedUnder RX0 wsX0_closedUnder 4 rmX0_closedUnder) (z0 : Nat) (hz0 : z0 < 2) (x1 : Int32) (x2 : Int32) {o : (Int32 × cS)} (hret : ∀ (st2 : cS) (v : Int32) (cells slots pc : Nat) (lv : List (Nat × Value)), decode cX0_closedUnder pc = .ok (.ireturn, 1) → o = (v, st2) → narrow .boolean (.int v) = .int v → cells ≤ rmX0_closedUnder.cells → slots ≤ rmX0_closedUnder.slots → V (cW ad κ) D Γ st2 cells slots pc lv [.int v]) {k0 : cS → Option (Int32 × cS)} (hk0 : ∀ (s : cS), k0 s = some o → V (cW ad κ) D Γ s 0 0 52 [(0, .ref (ad (66 + z0))), (1, .int x1), (2, .int x2)] []) : ∀ (fuel : Nat) (x3 : Int32) (s : cS), fX0_closedUnder_L12 z0 x1 x2 k0 fuel x3 s = some o → V (cW ad κ) D Γ s 0 0 12 [(0, .ref (ad (66 + z0))), (1, .int x1), (2, .int x2), (3, .int x3)] [] := by
  intro fuel
  induction fuel with
  | zero =>
    intro _ _ h
    have h : none = some o := h
    cases h
  | succ fuel ih =>
    intro x3 s h
    rw [fX0_closedUnder_L12] at h
    refine r_iload_n G 3 rfl rfl dX0_closedUnder_12 ?_
    refine r_aload_n G 0 rfl rfl dX0_closedUnder_13 ?_
    refine r_get G (C := RX0) (T := TX0) (N := 3) kX0_closedUnder_X0 (66 + z0) (cw_FAM ad κ _ hz0) rfl 2 (by decide) mX0_closedUnder_f22 rfl rfl dX0_closedUnder_14 ?_
    refine r_icmp_ge G (tgt := 52) dX0_closedUnder_17 (by decide) (fun c => ?_) (fun c => ?_)
    · rw [if_pos c] at h
      refine V.sub [0, 1, 2] rfl ?_
      exact hk0 _ h
    · rw [if_neg c] at h
      refine r_iload_n G 2 rfl rfl dX0_closedUnder_20 ?_
      refine r_iload_n G 3 rfl rfl dX0_closedUnder_21 ?_
      refine r_icmp_eq G (tgt := 46) dX0_closedUnder_22 (by decide) (fun c => ?_) (fun c => ?_)
      · rw [if_pos c] at h
        refine r_iinc G (j := 3) rfl (v := x3 + 1) rfl [1, 2, 3, 0] rfl (by decide) dX0_closedUnder_46 ?_
        refine r_goto G (tgt := 12) dX0_closedUnder_49 (by decide) ?_
        exact ih _ _ h
      · rw [if_neg c] at h
        refine r_aload_n G 0 rfl rfl dX0_closedUnder_25 ?_
        refine r_iload_n G 1 rfl rfl dX0_closedUnder_26 ?_
        refine r_iload_n G 2 rfl rfl dX0_closedUnder_27 ?_
        refine r_iload_n G 3 rfl rfl dX0_closedUnder_28 ?_
        obtain ⟨o1, e1, h⟩ := ob h
        refine r_callVv G [.int x1, .int x2, .int x3] (qX0_make hE z0 hz0 x1 x2 x3 _ e1) ⟨(66 + z0), 0, _, _, rfl, (cw_FAM ad κ _ hz0), rfl⟩ gX0_closedUnder_X0_make rfl hdX0_make ⟨Nat.le_of_ble_eq_true rfl, Nat.le_of_ble_eq_true rfl⟩ (Nat.le_of_ble_eq_true rfl) rfl ⟨Nat.le_of_ble_eq_true rfl, Nat.le_of_ble_eq_true rfl⟩ rfl rfl dX0_closedUnder_29 (fun s1 hp => ?_)
        have hp := hp.symm
        subst hp
        try dsimp only at h
        refine r_aload_n G 0 rfl rfl dX0_closedUnder_32 ?_
        refine r_aload_n G 0 rfl rfl dX0_closedUnder_33 ?_
        refine r_get G (C := RX0) (T := TX0) (N := 3) kX0_closedUnder_X0 (66 + z0) (cw_FAM ad κ _ hz0) rfl 1 (by decide) mX0_closedUnder_f18 rfl rfl dX0_closedUnder_34 ?_
        obtain ⟨o2, e2, h⟩ := ob h
        refine r_callVi G [.ref (ad (15 + 8 * z0))] (qX0_find hE z0 hz0 (15 + 8 * z0) (by have := hz0; omega) _ e2) ⟨(66 + z0), 0, _, _, rfl, (cw_FAM ad κ _ hz0), rfl⟩ gX0_closedUnder_X0_find rfl hdX0_find ⟨Nat.le_of_ble_eq_true rfl, Nat.le_of_ble_eq_true rfl⟩ (Nat.le_of_ble_eq_true rfl) rfl ⟨Nat.le_of_ble_eq_true rfl, Nat.le_of_ble_eq_true rfl⟩ rfl rfl dX0_closedUnder_37 (fun r2 s2 hp hn2 => ?_)
        subst hp
        try dsimp only at h
        refine r_iconst G (v := (-1)) (by decide) dX0_closedUnder_40 ?_
        refine r_icmp_ne G (tgt := 46) dX0_closedUnder_41 (by decide) (fun c => ?_) (fun c => ?_)
        · rw [if_neg c] at h
          refine r_iinc G (j := 3) rfl (v := x3 + 1) rfl [1, 2, 3, 0] rfl (by decide) dX0_closedUnder_46 ?_
          refine r_goto G (tgt := 12) dX0_closedUnder_49 (by decide) ?_
          exact ih _ _ h
        · rw [if_pos c] at h
          refine r_iconst G (v := 0) (by decide) dX0_closedUnder_44 ?_
          exact hret _ _ _ _ _ _ dX0_closedUnder_45 (Option.some.inj h).symm rfl (Nat.le_of_ble_eq_true rfl) (Nat.le_of_ble_eq_true rfl)
set_option maxHeartbeats 4000000 in
set_option maxRecDepth 100000 in
theorem wX0_closedUnder_L2 {E : evT} {l : Launch} {D : va_G} {ad : Nat → Nat} {κ : Nat → ClassId} (hE : EvOk E) {Γ : cxT} (G : Cx (cW ad κ) D (tyA κ) E l Γ cX0_closedUnder RX0 wsX0_closedUnder 4 rmX0_closedUnder) (z0 : Nat) (hz0 : z0 < 2) (x1 : Int32) {o : (Int32 × cS)} (hret : ∀ (st2 : cS) (v : Int32) (cells slots pc : Nat) (lv : List (Nat × Value)), decode cX0_closedUnder pc = .ok (.ireturn, 1) → o = (v, st2) → narrow .boolean (.int v) = .int v → cells ≤ rmX0_closedUnder.cells → slots ≤ rmX0_closedUnder.slots → V (cW ad κ) D Γ st2 cells slots pc lv [.int v]) : ∀ (fuel : Nat) (x2 : Int32) (s : cS), fX0_closedUnder_L2 z0 x1 fuel x2 s = some o → V (cW ad κ) D Γ s 0 0 2 [(0, .ref (ad (66 + z0))), (1, .int x1), (2, .int x2)] [] := by
  intro fuel
  induction fuel with
  | zero =>
    intro _ _ h
    have h : none = some o := h
    cases h
  | succ fuel ih =>
    intro x2 s h
    rw [fX0_closedUnder_L2] at h
    refine r_iload_n G 2 rfl rfl dX0_closedUnder_2 ?_
    refine r_aload_n G 0 rfl rfl dX0_closedUnder_3 ?_
    refine r_get G (C := RX0) (T := TX0) (N := 3) kX0_closedUnder_X0 (66 + z0) (cw_FAM ad κ _ hz0) rfl 2 (by decide) mX0_closedUnder_f22 rfl rfl dX0_closedUnder_4 ?_
    refine r_icmp_ge G (tgt := 58) dX0_closedUnder_7 (by decide) (fun c => ?_) (fun c => ?_)
    · rw [if_pos c] at h
      refine r_iconst G (v := 1) (by decide) dX0_closedUnder_58 ?_
      exact hret _ _ _ _ _ _ dX0_closedUnder_59 (Option.some.inj h).symm rfl (Nat.le_of_ble_eq_true rfl) (Nat.le_of_ble_eq_true rfl)
    · rw [if_neg c] at h
      refine r_iconst G (v := 0) (by decide) dX0_closedUnder_10 ?_
      refine r_istore_n G [1, 2, 3, 0] rfl rfl (by decide) dX0_closedUnder_11 ?_
      refine wX0_closedUnder_L12 hE G _ hz0 _ _ hret (fun s3 h => ?_) 1100 _ _ h
      · try dsimp only at h
        refine r_iinc G (j := 2) rfl (v := x2 + 1) rfl [1, 2, 0] rfl (by decide) dX0_closedUnder_52 ?_
        refine r_goto G (tgt := 2) dX0_closedUnder_55 (by decide) ?_
        exact ih _ _ h
set_option maxHeartbeats 4000000 in
set_option maxRecDepth 100000 in
theorem qX0_closedUnder {E : evT} {l : Launch} {D : va_G} {ad : Nat → Nat} {κ : Nat → ClassId} (hE : EvOk E) (F : Nat) (hF : F < 2) (p0 : Int32) (s : cS) {o : (Int32 × cS)} (h : fX0_closedUnder F p0 s = some o) : Ci l yX0_closedUnder wsX0_closedUnder rmX0_closedUnder (cW ad κ) E D (tyA κ) .boolean [.ref (ad (66 + F)), .int p0] s (fun r s2 => o = (r, s2)) := by
  rw [fX0_closedUnder] at h
  refine s_i (cc := cX0_closedUnder) (nL := 4) (own := RX0) hE (cW_WA ad κ) (plainFor_of_name (by decide)) rfl rfl (Nat.le_of_ble_eq_true rfl) (fun Γ G hret => ?_)
  refine r_iconst G (v := 0) (by decide) dX0_closedUnder_0 ?_
  refine r_istore_n G [1, 2, 0] rfl rfl (by decide) dX0_closedUnder_1 ?_
  refine wX0_closedUnder_L2 hE G _ hF _ hret 1100 _ _ h
abbrev rmX0_allNested : Room := { frames := 1, cells := 0, slots := 0, locals := 21 }
set_option maxRecDepth 20000 in
theorem kX0_allNested_X0 : ∀ w ∈ u_ws RX0 TX0 3, w ∈ wsX0_allNested := by decide +kernel
set_option maxRecDepth 20000 in
theorem mX0_allNested_f22 : Cond.fieldLink RX0 22 "SetCouncil$Family" "count" "I" ∈ wsX0_allNested := by decide +kernel
set_option maxRecDepth 20000 in
theorem mX0_allNested_f11 : Cond.fieldLink RX0 11 "SetCouncil$Family" "held" "[LSetCouncil$MemberSet;" ∈ wsX0_allNested := by decide +kernel
theorem hdX2_holdsAll : yX2_holdsAll.cls = RX2 ∧ yX2_holdsAll.cls ≠ "java/lang/invoke/MethodHandle" ∧ yX2_holdsAll.cls ≠ "java/lang/invoke/VarHandle" ∧ (parseMethodDescriptor yX2_holdsAll.desc).map (fun d => d.parameters.length) = some 1 := by decide +kernel
set_option maxHeartbeats 4000000 in
set_option maxRecDepth 100000 in
theorem wX0_allNested_L14 {E : evT} {l : Launch} {D : va_G} {ad : Nat → Nat} {κ : Nat → ClassId} (hE : EvOk E) {Γ : cxT} (G : Cx (cW ad κ) D (tyA κ) E l Γ cX0_allNested RX0 wsX0_allNested 3 rmX0_allNested) (z0 : Nat) (hz0 : z0 < 2) (x1 : Int32) {o : (Int32 × cS)} (hret : ∀ (st2 : cS) (v : Int32) (cells slots pc : Nat) (lv : List (Nat × Value)), decode cX0_allNested pc = .ok (.ireturn, 1) → o = (v, st2) → narrow .boolean (.int v) = .int v → cells ≤ rmX0_allNested.cells → slots ≤ rmX0_allNested.slots → V (cW ad κ) D Γ st2 cells slots pc lv [.int v]) {k0 : cS → Option (Int32 × cS)} (hk0 : ∀ (s : cS), k0 s = some o → V (cW ad κ) D Γ s 0 0 66 [(0, .ref (ad (66 + z0))), (1, .int x1)] []) : ∀ (fuel : Nat) (x2 : Int32) (s : cS), fX0_allNested_L14 z0 x1 k0 fuel x2 s = some o → V (cW ad κ) D Γ s 0 0 14 [(0, .ref (ad (66 + z0))), (1, .int x1), (2, .int x2)] [] := by
  intro fuel
  induction fuel with
  | zero =>
    intro _ _ h
    have h : none = some o := h
    cases h
  | succ fuel ih =>
    intro x2 s h
    rw [fX0_allNested_L14] at h
    refine r_iload_n G 2 rfl rfl dX0_allNested_14 ?_
    refine r_aload_n G 0 rfl rfl dX0_allNested_15 ?_
    refine r_get G (C := RX0) (T := TX0) (N := 3) kX0_allNested_X0 (66 + z0) (cw_FAM ad κ _ hz0) rfl 2 (by decide) mX0_allNested_f22 rfl rfl dX0_allNested_16 ?_
    refine r_icmp_ge G (tgt := 66) dX0_allNested_19 (by decide) (fun c => ?_) (fun c => ?_)
    · rw [if_pos c] at h
      refine V.sub [0, 1] rfl ?_
      exact hk0 _ h
    · rw [if_neg c] at h
      refine r_aload_n G 0 rfl rfl dX0_allNested_22 ?_
      refine r_get G (C := RX0) (T := TX0) (N := 3) kX0_allNested_X0 (66 + z0) (cw_FAM ad κ _ hz0) rfl 0 (by decide) mX0_allNested_f11 rfl rfl dX0_allNested_23 ?_
      refine r_iload_n G 1 rfl rfl dX0_allNested_26 ?_
      obtain ⟨g1, h⟩ := og h
      refine r_aldq G (68 + z0) 0 (cw_HELD ad κ _ hz0) rfl (vin_in g1) rfl dX0_allNested_27 ?_
      refine r_aload_n G 0 rfl rfl dX0_allNested_28 ?_
      refine r_get G (C := RX0) (T := TX0) (N := 3) kX0_allNested_X0 (66 + z0) (cw_FAM ad κ _ hz0) rfl 0 (by decide) mX0_allNested_f11 rfl rfl dX0_allNested_29 ?_
      refine r_iload_n G 2 rfl rfl dX0_allNested_32 ?_
      obtain ⟨g2, h⟩ := og h
      refine r_aldq G (68 + z0) 0 (cw_HELD ad κ _ hz0) rfl (vin_in g2) rfl dX0_allNested_33 ?_
      refine r_callVi G [.ref (ad (8 + 8 * z0 + x2.toNatClampNeg))] (qX2_holdsAll hE (8 + 8 * z0 + x1.toNatClampNeg) (by have := vin_lt g1; have := hz0; omega) (8 + 8 * z0 + x2.toNatClampNeg) (by have := vin_lt g2; have := hz0; omega) _) ⟨(8 + 8 * z0 + x1.toNatClampNeg), 2, _, _, rfl, (cw_MS ad κ _ (by have := vin_lt g1; have := hz0; omega)), rfl⟩ gX0_allNested_X2_holdsAll rfl hdX2_holdsAll ⟨Nat.le_of_ble_eq_true rfl, Nat.le_of_ble_eq_true rfl⟩ (Nat.le_of_ble_eq_true rfl) rfl ⟨Nat.le_of_ble_eq_true rfl, Nat.le_of_ble_eq_true rfl⟩ rfl rfl dX0_allNested_34 (fun r3 s3 hp hn3 => ?_)
      obtain ⟨rfl, hs⟩ := hp
      have hs := hs.symm
      subst hs
      refine r_if_ne G (tgt := 60) dX0_allNested_37 (by decide) (fun c => ?_) (fun c => ?_)
      · rw [if_neg c] at h
        refine r_iinc G (j := 2) rfl (v := x2 + 1) rfl [1, 2, 0] rfl (by decide) dX0_allNested_60 ?_
        refine r_goto G (tgt := 14) dX0_allNested_63 (by decide) ?_
        exact ih _ _ h
      · rw [if_pos c] at h
        refine r_aload_n G 0 rfl rfl dX0_allNested_40 ?_
        refine r_get G (C := RX0) (T := TX0) (N := 3) kX0_allNested_X0 (66 + z0) (cw_FAM ad κ _ hz0) rfl 0 (by decide) mX0_allNested_f11 rfl rfl dX0_allNested_41 ?_
        refine r_iload_n G 2 rfl rfl dX0_allNested_44 ?_
        obtain ⟨g4, h⟩ := og h
        refine r_aldq G (68 + z0) 0 (cw_HELD ad κ _ hz0) rfl (vin_in g4) rfl dX0_allNested_45 ?_
        refine r_aload_n G 0 rfl rfl dX0_allNested_46 ?_
        refine r_get G (C := RX0) (T := TX0) (N := 3) kX0_allNested_X0 (66 + z0) (cw_FAM ad κ _ hz0) rfl 0 (by decide) mX0_allNested_f11 rfl rfl dX0_allNested_47 ?_
        refine r_iload_n G 1 rfl rfl dX0_allNested_50 ?_
        obtain ⟨g5, h⟩ := og h
        refine r_aldq G (68 + z0) 0 (cw_HELD ad κ _ hz0) rfl (vin_in g5) rfl dX0_allNested_51 ?_
        refine r_callVi G [.ref (ad (8 + 8 * z0 + x1.toNatClampNeg))] (qX2_holdsAll hE (8 + 8 * z0 + x2.toNatClampNeg) (by have := vin_lt g4; have := hz0; omega) (8 + 8 * z0 + x1.toNatClampNeg) (by have := vin_lt g5; have := hz0; omega) _) ⟨(8 + 8 * z0 + x2.toNatClampNeg), 2, _, _, rfl, (cw_MS ad κ _ (by have := vin_lt g4; have := hz0; omega)), rfl⟩ gX0_allNested_X2_holdsAll rfl hdX2_holdsAll ⟨Nat.le_of_ble_eq_true rfl, Nat.le_of_ble_eq_true rfl⟩ (Nat.le_of_ble_eq_true rfl) rfl ⟨Nat.le_of_ble_eq_true rfl, Nat.le_of_ble_eq_true rfl⟩ rfl rfl dX0_allNested_52 (fun r6 s6 hp hn6 => ?_)
        obtain ⟨rfl, hs⟩ := hp
        have hs := hs.symm
        subst hs
        refine r_if_ne G (tgt := 60) dX0_allNested_55 (by decide) (fun c => ?_) (fun c => ?_)
        · rw [if_neg c] at h
          refine r_iinc G (j := 2) rfl (v := x2 + 1) rfl [1, 2, 0] rfl (by decide) dX0_allNested_60 ?_
          refine r_goto G (tgt := 14) dX0_allNested_63 (by decide) ?_
          exact ih _ _ h
        · rw [if_pos c] at h
          refine r_iconst G (v := 0) (by decide) dX0_allNested_58 ?_
          exact hret _ _ _ _ _ _ dX0_allNested_59 (Option.some.inj h).symm rfl (Nat.le_of_ble_eq_true rfl) (Nat.le_of_ble_eq_true rfl)
set_option maxHeartbeats 4000000 in
set_option maxRecDepth 100000 in
theorem wX0_allNested_L2 {E : evT} {l : Launch} {D : va_G} {ad : Nat → Nat} {κ : Nat → ClassId} (hE : EvOk E) {Γ : cxT} (G : Cx (cW ad κ) D (tyA κ) E l Γ cX0_allNested RX0 wsX0_allNested 3 rmX0_allNested) (z0 : Nat) (hz0 : z0 < 2) {o : (Int32 × cS)} (hret : ∀ (st2 : cS) (v : Int32) (cells slots pc : Nat) (lv : List (Nat × Value)), decode cX0_allNested pc = .ok (.ireturn, 1) → o = (v, st2) → narrow .boolean (.int v) = .int v → cells ≤ rmX0_allNested.cells → slots ≤ rmX0_allNested.slots → V (cW ad κ) D Γ st2 cells slots pc lv [.int v]) : ∀ (fuel : Nat) (x1 : Int32) (s : cS), fX0_allNested_L2 z0 fuel x1 s = some o → V (cW ad κ) D Γ s 0 0 2 [(0, .ref (ad (66 + z0))), (1, .int x1)] [] := by
  intro fuel
  induction fuel with
  | zero =>
    intro _ _ h
    have h : none = some o := h
    cases h
  | succ fuel ih =>
    intro x1 s h
    rw [fX0_allNested_L2] at h
    refine r_iload_n G 1 rfl rfl dX0_allNested_2 ?_
    refine r_aload_n G 0 rfl rfl dX0_allNested_3 ?_
    refine r_get G (C := RX0) (T := TX0) (N := 3) kX0_allNested_X0 (66 + z0) (cw_FAM ad κ _ hz0) rfl 2 (by decide) mX0_allNested_f22 rfl rfl dX0_allNested_4 ?_
    refine r_icmp_ge G (tgt := 72) dX0_allNested_7 (by decide) (fun c => ?_) (fun c => ?_)
    · rw [if_pos c] at h
      refine r_iconst G (v := 1) (by decide) dX0_allNested_72 ?_
      exact hret _ _ _ _ _ _ dX0_allNested_73 (Option.some.inj h).symm rfl (Nat.le_of_ble_eq_true rfl) (Nat.le_of_ble_eq_true rfl)
    · rw [if_neg c] at h
      refine r_iload_n G 1 rfl rfl dX0_allNested_10 ?_
      refine r_iconst G (v := 1) (by decide) dX0_allNested_11 ?_
      refine r_iadd G dX0_allNested_12 ?_
      refine r_istore_n G [1, 2, 0] rfl rfl (by decide) dX0_allNested_13 ?_
      refine wX0_allNested_L14 hE G _ hz0 _ hret (fun s7 h => ?_) 1100 _ _ h
      · try dsimp only at h
        refine r_iinc G (j := 1) rfl (v := x1 + 1) rfl [1, 0] rfl (by decide) dX0_allNested_66 ?_
        refine r_goto G (tgt := 2) dX0_allNested_69 (by decide) ?_
        exact ih _ _ h
set_option maxHeartbeats 4000000 in
set_option maxRecDepth 100000 in
theorem qX0_allNested {E : evT} {l : Launch} {D : va_G} {ad : Nat → Nat} {κ : Nat → ClassId} (hE : EvOk E) (F : Nat) (hF : F < 2) (s : cS) {o : (Int32 × cS)} (h : fX0_allNested F s = some o) : Ci l yX0_allNested wsX0_allNested rmX0_allNested (cW ad κ) E D (tyA κ) .boolean [.ref (ad (66 + F))] s (fun r s2 => o = (r, s2)) := by
  rw [fX0_allNested] at h
  refine s_i (cc := cX0_allNested) (nL := 3) (own := RX0) hE (cW_WA ad κ) (plainFor_of_name (by decide)) rfl rfl (Nat.le_of_ble_eq_true rfl) (fun Γ G hret => ?_)
  refine r_iconst G (v := 0) (by decide) dX0_allNested_0 ?_
  refine r_istore_n G [1, 0] rfl rfl (by decide) dX0_allNested_1 ?_
  refine wX0_allNested_L2 hE G _ hF hret 1100 _ _ h
abbrev rmX0_allPlaces : Room := { frames := 0, cells := 0, slots := 0, locals := 0 }
set_option maxRecDepth 20000 in
theorem kX0_allPlaces_X0 : ∀ w ∈ u_ws RX0 TX0 3, w ∈ wsX0_allPlaces := by decide +kernel
set_option maxRecDepth 20000 in
theorem mX0_allPlaces_f22 : Cond.fieldLink RX0 22 "SetCouncil$Family" "count" "I" ∈ wsX0_allPlaces := by decide +kernel
set_option maxHeartbeats 4000000 in
set_option maxRecDepth 100000 in
theorem qX0_allPlaces {E : evT} {l : Launch} {D : va_G} {ad : Nat → Nat} {κ : Nat → ClassId} (hE : EvOk E) (F : Nat) (hF : F < 2) (s : cS) : Ci l yX0_allPlaces wsX0_allPlaces rmX0_allPlaces (cW ad κ) E D (tyA κ) .int [.ref (ad (66 + F))] s (fun r s2 => r = fX0_allPlaces F s ∧ s2 = s) := by
  obtain ⟨o, h⟩ : ∃ o, fX0_allPlaces F s = o := ⟨_, rfl⟩
  rw [h]
  rw [fX0_allPlaces] at h
  refine s_i (cc := cX0_allPlaces) (nL := 1) (own := RX0) hE (cW_WA ad κ) (plainFor_of_name (by decide)) rfl rfl (Nat.le_of_ble_eq_true rfl) (fun Γ G hret => ?_)
  refine r_iconst G (v := 1) (by decide) dX0_allPlaces_0 ?_
  refine r_aload_n G 0 rfl rfl dX0_allPlaces_1 ?_
  refine r_get G (C := RX0) (T := TX0) (N := 3) kX0_allPlaces_X0 (66 + F) (cw_FAM ad κ _ hF) rfl 2 (by decide) mX0_allPlaces_f22 rfl rfl dX0_allPlaces_2 ?_
  refine r_ishl G dX0_allPlaces_5 ?_
  refine r_iconst G (v := 1) (by decide) dX0_allPlaces_6 ?_
  refine r_isub G dX0_allPlaces_7 ?_
  exact hret _ _ _ _ _ _ dX0_allPlaces_8 ⟨h, rfl⟩ rfl (Nat.le_of_ble_eq_true rfl) (Nat.le_of_ble_eq_true rfl)
abbrev rmX0_placesWithin : Room := { frames := 1, cells := 0, slots := 0, locals := 21 }
set_option maxRecDepth 20000 in
theorem kX0_placesWithin_X0 : ∀ w ∈ u_ws RX0 TX0 3, w ∈ wsX0_placesWithin := by decide +kernel
set_option maxRecDepth 20000 in
theorem mX0_placesWithin_f22 : Cond.fieldLink RX0 22 "SetCouncil$Family" "count" "I" ∈ wsX0_placesWithin := by decide +kernel
set_option maxRecDepth 20000 in
theorem mX0_placesWithin_f11 : Cond.fieldLink RX0 11 "SetCouncil$Family" "held" "[LSetCouncil$MemberSet;" ∈ wsX0_placesWithin := by decide +kernel
set_option maxHeartbeats 4000000 in
set_option maxRecDepth 100000 in
theorem wX0_placesWithin_L5 {E : evT} {l : Launch} {D : va_G} {ad : Nat → Nat} {κ : Nat → ClassId} (hE : EvOk E) {Γ : cxT} (G : Cx (cW ad κ) D (tyA κ) E l Γ cX0_placesWithin RX0 wsX0_placesWithin 5 rmX0_placesWithin) (z0 : Nat) (hz0 : z0 < 2) (x1 : Int32) (z2 : Nat) (hz2 : z2 < 55) {o : (Int32 × cS)} (hret : ∀ (st2 : cS) (v : Int32) (cells slots pc : Nat) (lv : List (Nat × Value)), decode cX0_placesWithin pc = .ok (.ireturn, 1) → o = (v, st2) → narrow .int (.int v) = .int v → cells ≤ rmX0_placesWithin.cells → slots ≤ rmX0_placesWithin.slots → V (cW ad κ) D Γ st2 cells slots pc lv [.int v]) : ∀ (fuel : Nat) (x3 : Int32) (x4 : Int32) (s : cS), fX0_placesWithin_L5 z0 x1 z2 fuel x3 x4 s = some o → V (cW ad κ) D Γ s 0 0 5 [(0, .ref (ad (66 + z0))), (1, .int x1), (2, .ref (ad z2)), (3, .int x3), (4, .int x4)] [] := by
  intro fuel
  induction fuel with
  | zero =>
    intro _ _ _ h
    have h : none = some o := h
    cases h
  | succ fuel ih =>
    intro x3 x4 s h
    rw [fX0_placesWithin_L5] at h
    refine r_iload G 4 rfl dX0_placesWithin_5 ?_
    refine r_aload_n G 0 rfl rfl dX0_placesWithin_7 ?_
    refine r_get G (C := RX0) (T := TX0) (N := 3) kX0_placesWithin_X0 (66 + z0) (cw_FAM ad κ _ hz0) rfl 2 (by decide) mX0_placesWithin_f22 rfl rfl dX0_placesWithin_8 ?_
    refine r_icmp_ge G (tgt := 50) dX0_placesWithin_11 (by decide) (fun c => ?_) (fun c => ?_)
    · rw [if_pos c] at h
      refine r_iload_n G 3 rfl rfl dX0_placesWithin_50 ?_
      exact hret _ _ _ _ _ _ dX0_placesWithin_51 (Option.some.inj h).symm rfl (Nat.le_of_ble_eq_true rfl) (Nat.le_of_ble_eq_true rfl)
    · rw [if_neg c] at h
      refine r_iload_n G 1 rfl rfl dX0_placesWithin_14 ?_
      refine r_iload G 4 rfl dX0_placesWithin_15 ?_
      refine r_ishr G dX0_placesWithin_17 ?_
      refine r_iconst G (v := 1) (by decide) dX0_placesWithin_18 ?_
      refine r_iand G dX0_placesWithin_19 ?_
      refine r_if_eq G (tgt := 44) dX0_placesWithin_20 (by decide) (fun c => ?_) (fun c => ?_)
      · rw [if_pos c] at h
        refine r_iinc G (j := 4) rfl (v := x4 + 1) rfl [1, 2, 3, 4, 0] rfl (by decide) dX0_placesWithin_44 ?_
        refine r_goto G (tgt := 5) dX0_placesWithin_47 (by decide) ?_
        exact ih _ _ _ h
      · rw [if_neg c] at h
        refine r_aload_n G 2 rfl rfl dX0_placesWithin_23 ?_
        refine r_aload_n G 0 rfl rfl dX0_placesWithin_24 ?_
        refine r_get G (C := RX0) (T := TX0) (N := 3) kX0_placesWithin_X0 (66 + z0) (cw_FAM ad κ _ hz0) rfl 0 (by decide) mX0_placesWithin_f11 rfl rfl dX0_placesWithin_25 ?_
        refine r_iload G 4 rfl dX0_placesWithin_28 ?_
        obtain ⟨g1, h⟩ := og h
        refine r_aldq G (68 + z0) 0 (cw_HELD ad κ _ hz0) rfl (vin_in g1) rfl dX0_placesWithin_30 ?_
        refine r_callVi G [.ref (ad (8 + 8 * z0 + x4.toNatClampNeg))] (qX2_holdsAll hE z2 hz2 (8 + 8 * z0 + x4.toNatClampNeg) (by have := vin_lt g1; have := hz0; omega) _) ⟨z2, 2, _, _, rfl, (cw_MS ad κ _ hz2), rfl⟩ gX0_placesWithin_X2_holdsAll rfl hdX2_holdsAll ⟨Nat.le_of_ble_eq_true rfl, Nat.le_of_ble_eq_true rfl⟩ (Nat.le_of_ble_eq_true rfl) rfl ⟨Nat.le_of_ble_eq_true rfl, Nat.le_of_ble_eq_true rfl⟩ rfl rfl dX0_placesWithin_31 (fun r2 s2 hp hn2 => ?_)
        obtain ⟨rfl, hs⟩ := hp
        have hs := hs.symm
        subst hs
        refine r_if_eq G (tgt := 44) dX0_placesWithin_34 (by decide) (fun c => ?_) (fun c => ?_)
        · rw [if_pos c] at h
          refine r_iinc G (j := 4) rfl (v := x4 + 1) rfl [1, 2, 3, 4, 0] rfl (by decide) dX0_placesWithin_44 ?_
          refine r_goto G (tgt := 5) dX0_placesWithin_47 (by decide) ?_
          exact ih _ _ _ h
        · rw [if_neg c] at h
          refine r_iload_n G 3 rfl rfl dX0_placesWithin_37 ?_
          refine r_iconst G (v := 1) (by decide) dX0_placesWithin_38 ?_
          refine r_iload G 4 rfl dX0_placesWithin_39 ?_
          refine r_ishl G dX0_placesWithin_41 ?_
          refine r_ior G dX0_placesWithin_42 ?_
          refine r_istore_n G [1, 2, 3, 0, 4] rfl rfl (by decide) dX0_placesWithin_43 ?_
          refine r_iinc G (j := 4) rfl (v := x4 + 1) rfl [1, 2, 3, 4, 0] rfl (by decide) dX0_placesWithin_44 ?_
          refine r_goto G (tgt := 5) dX0_placesWithin_47 (by decide) ?_
          exact ih _ _ _ h
set_option maxHeartbeats 4000000 in
set_option maxRecDepth 100000 in
theorem qX0_placesWithin {E : evT} {l : Launch} {D : va_G} {ad : Nat → Nat} {κ : Nat → ClassId} (hE : EvOk E) (F : Nat) (hF : F < 2) (p0 : Int32) (p1 : Nat) (hp1 : p1 < 55) (s : cS) {o : (Int32 × cS)} (h : fX0_placesWithin F p0 p1 s = some o) : Ci l yX0_placesWithin wsX0_placesWithin rmX0_placesWithin (cW ad κ) E D (tyA κ) .int [.ref (ad (66 + F)), .int p0, .ref (ad p1)] s (fun r s2 => o = (r, s2)) := by
  rw [fX0_placesWithin] at h
  refine s_i (cc := cX0_placesWithin) (nL := 5) (own := RX0) hE (cW_WA ad κ) (plainFor_of_name (by decide)) rfl rfl (Nat.le_of_ble_eq_true rfl) (fun Γ G hret => ?_)
  refine r_iconst G (v := 0) (by decide) dX0_placesWithin_0 ?_
  refine r_istore_n G [1, 2, 3, 0] rfl rfl (by decide) dX0_placesWithin_1 ?_
  refine r_iconst G (v := 0) (by decide) dX0_placesWithin_2 ?_
  refine r_istore G [1, 2, 3, 4, 0] rfl (by decide) dX0_placesWithin_3 ?_
  refine wX0_placesWithin_L5 hE G _ hF _ _ hp1 hret 1100 _ _ _ h
abbrev rmX0_isUnionOf : Room := { frames := 1, cells := 0, slots := 0, locals := 26 }
set_option maxRecDepth 20000 in
theorem kX0_isUnionOf_X0 : ∀ w ∈ u_ws RX0 TX0 3, w ∈ wsX0_isUnionOf := by decide +kernel
set_option maxRecDepth 20000 in
theorem mX0_isUnionOf_f18 : Cond.fieldLink RX0 18 "SetCouncil$Family" "made" "LSetCouncil$MemberSet;" ∈ wsX0_isUnionOf := by decide +kernel
theorem hdX2_empty : yX2_empty.cls = RX2 ∧ yX2_empty.cls ≠ "java/lang/invoke/MethodHandle" ∧ yX2_empty.cls ≠ "java/lang/invoke/VarHandle" ∧ (parseMethodDescriptor yX2_empty.desc).map (fun d => d.parameters.length) = some 0 := by decide +kernel
set_option maxRecDepth 20000 in
theorem mX0_isUnionOf_f22 : Cond.fieldLink RX0 22 "SetCouncil$Family" "count" "I" ∈ wsX0_isUnionOf := by decide +kernel
set_option maxRecDepth 20000 in
theorem mX0_isUnionOf_f11 : Cond.fieldLink RX0 11 "SetCouncil$Family" "held" "[LSetCouncil$MemberSet;" ∈ wsX0_isUnionOf := by decide +kernel
set_option maxHeartbeats 4000000 in
set_option maxRecDepth 100000 in
theorem wX0_isUnionOf_L9 {E : evT} {l : Launch} {D : va_G} {ad : Nat → Nat} {κ : Nat → ClassId} (hE : EvOk E) {Γ : cxT} (G : Cx (cW ad κ) D (tyA κ) E l Γ cX0_isUnionOf RX0 wsX0_isUnionOf 4 rmX0_isUnionOf) (z0 : Nat) (hz0 : z0 < 2) (x1 : Int32) (x2 : Int32) {o : (Int32 × cS)} (hret : ∀ (st2 : cS) (v : Int32) (cells slots pc : Nat) (lv : List (Nat × Value)), decode cX0_isUnionOf pc = .ok (.ireturn, 1) → o = (v, st2) → narrow .boolean (.int v) = .int v → cells ≤ rmX0_isUnionOf.cells → slots ≤ rmX0_isUnionOf.slots → V (cW ad κ) D Γ st2 cells slots pc lv [.int v]) {k0 : cS → Option (Int32 × cS)} (hk0 : ∀ (s : cS), k0 s = some o → V (cW ad κ) D Γ s 0 0 46 [(0, .ref (ad (66 + z0))), (1, .int x1)] []) : ∀ (fuel : Nat) (x3 : Int32) (s : cS), fX0_isUnionOf_L9 z0 x1 x2 k0 fuel x3 s = some o → V (cW ad κ) D Γ s 0 0 9 [(0, .ref (ad (66 + z0))), (1, .int x1), (2, .int x2), (3, .int x3)] [] := by
  intro fuel
  induction fuel with
  | zero =>
    intro _ _ h
    have h : none = some o := h
    cases h
  | succ fuel ih =>
    intro x3 s h
    rw [fX0_isUnionOf_L9] at h
    refine r_iload_n G 3 rfl rfl dX0_isUnionOf_9 ?_
    refine r_aload_n G 0 rfl rfl dX0_isUnionOf_10 ?_
    refine r_get G (C := RX0) (T := TX0) (N := 3) kX0_isUnionOf_X0 (66 + z0) (cw_FAM ad κ _ hz0) rfl 2 (by decide) mX0_isUnionOf_f22 rfl rfl dX0_isUnionOf_11 ?_
    refine r_icmp_ge G (tgt := 46) dX0_isUnionOf_14 (by decide) (fun c => ?_) (fun c => ?_)
    · rw [if_pos c] at h
      refine V.sub [0, 1] rfl ?_
      exact hk0 _ h
    · rw [if_neg c] at h
      refine r_iload_n G 2 rfl rfl dX0_isUnionOf_17 ?_
      refine r_iload_n G 3 rfl rfl dX0_isUnionOf_18 ?_
      refine r_ishr G dX0_isUnionOf_19 ?_
      refine r_iconst G (v := 1) (by decide) dX0_isUnionOf_20 ?_
      refine r_iand G dX0_isUnionOf_21 ?_
      refine r_if_eq G (tgt := 40) dX0_isUnionOf_22 (by decide) (fun c => ?_) (fun c => ?_)
      · rw [if_pos c] at h
        refine r_iinc G (j := 3) rfl (v := x3 + 1) rfl [1, 2, 3, 0] rfl (by decide) dX0_isUnionOf_40 ?_
        refine r_goto G (tgt := 9) dX0_isUnionOf_43 (by decide) ?_
        exact ih _ _ h
      · rw [if_neg c] at h
        refine r_aload_n G 0 rfl rfl dX0_isUnionOf_25 ?_
        refine r_get G (C := RX0) (T := TX0) (N := 3) kX0_isUnionOf_X0 (66 + z0) (cw_FAM ad κ _ hz0) rfl 1 (by decide) mX0_isUnionOf_f18 rfl rfl dX0_isUnionOf_26 ?_
        refine r_iconst G (v := 0) (by decide) dX0_isUnionOf_29 ?_
        refine r_aload_n G 0 rfl rfl dX0_isUnionOf_30 ?_
        refine r_get G (C := RX0) (T := TX0) (N := 3) kX0_isUnionOf_X0 (66 + z0) (cw_FAM ad κ _ hz0) rfl 0 (by decide) mX0_isUnionOf_f11 rfl rfl dX0_isUnionOf_31 ?_
        refine r_iload_n G 3 rfl rfl dX0_isUnionOf_34 ?_
        obtain ⟨g2, h⟩ := og h
        refine r_aldq G (68 + z0) 0 (cw_HELD ad κ _ hz0) rfl (vin_in g2) rfl dX0_isUnionOf_35 ?_
        obtain ⟨o3, e3, h⟩ := ob h
        refine r_callVi G [.int 0, .ref (ad (8 + 8 * z0 + x3.toNatClampNeg))] (qX2_combine hE (15 + 8 * z0) (by have := hz0; omega) (0 : Int32) (8 + 8 * z0 + x3.toNatClampNeg) (by have := vin_lt g2; have := hz0; omega) _ e3) ⟨(15 + 8 * z0), 2, _, _, rfl, (cw_MS ad κ _ (by have := hz0; omega)), rfl⟩ gX0_isUnionOf_X2_combine rfl hdX2_combine ⟨Nat.le_of_ble_eq_true rfl, Nat.le_of_ble_eq_true rfl⟩ (Nat.le_of_ble_eq_true rfl) rfl ⟨Nat.le_of_ble_eq_true rfl, Nat.le_of_ble_eq_true rfl⟩ rfl rfl dX0_isUnionOf_36 (fun r3 s3 hp hn3 => ?_)
        subst hp
        try dsimp only at h
        refine r_pop G rfl dX0_isUnionOf_39 ?_
        refine r_iinc G (j := 3) rfl (v := x3 + 1) rfl [1, 2, 3, 0] rfl (by decide) dX0_isUnionOf_40 ?_
        refine r_goto G (tgt := 9) dX0_isUnionOf_43 (by decide) ?_
        exact ih _ _ h
set_option maxHeartbeats 4000000 in
set_option maxRecDepth 100000 in
theorem qX0_isUnionOf {E : evT} {l : Launch} {D : va_G} {ad : Nat → Nat} {κ : Nat → ClassId} (hE : EvOk E) (F : Nat) (hF : F < 2) (p0 : Int32) (p1 : Int32) (s : cS) {o : (Int32 × cS)} (h : fX0_isUnionOf F p0 p1 s = some o) : Ci l yX0_isUnionOf wsX0_isUnionOf rmX0_isUnionOf (cW ad κ) E D (tyA κ) .boolean [.ref (ad (66 + F)), .int p0, .int p1] s (fun r s2 => o = (r, s2)) := by
  rw [fX0_isUnionOf] at h
  refine s_i (cc := cX0_isUnionOf) (nL := 4) (own := RX0) hE (cW_WA ad κ) (plainFor_of_name (by decide)) rfl rfl (Nat.le_of_ble_eq_true rfl) (fun Γ G hret => ?_)
  refine r_aload_n G 0 rfl rfl dX0_isUnionOf_0 ?_
  refine r_get G (C := RX0) (T := TX0) (N := 3) kX0_isUnionOf_X0 (66 + F) (cw_FAM ad κ _ hF) rfl 1 (by decide) mX0_isUnionOf_f18 rfl rfl dX0_isUnionOf_1 ?_
  obtain ⟨o1, e1, h⟩ := ob h
  refine r_callVv G [] (qX2_empty hE (15 + 8 * F) (by have := hF; omega) _ e1) ⟨(15 + 8 * F), 2, _, _, rfl, (cw_MS ad κ _ (by have := hF; omega)), rfl⟩ gX0_isUnionOf_X2_empty rfl hdX2_empty ⟨Nat.le_of_ble_eq_true rfl, Nat.le_of_ble_eq_true rfl⟩ (Nat.le_of_ble_eq_true rfl) rfl ⟨Nat.le_of_ble_eq_true rfl, Nat.le_of_ble_eq_true rfl⟩ rfl rfl dX0_isUnionOf_4 (fun s1 hp => ?_)
  have hp := hp.symm
  subst hp
  try dsimp only at h
  refine r_iconst G (v := 0) (by decide) dX0_isUnionOf_7 ?_
  refine r_istore_n G [1, 2, 3, 0] rfl rfl (by decide) dX0_isUnionOf_8 ?_
  refine wX0_isUnionOf_L9 hE G _ hF _ _ hret (fun s4 h => ?_) 1100 _ _ h
  · try dsimp only at h
    refine r_aload_n G 0 rfl rfl dX0_isUnionOf_46 ?_
    refine r_get G (C := RX0) (T := TX0) (N := 3) kX0_isUnionOf_X0 (66 + F) (cw_FAM ad κ _ hF) rfl 1 (by decide) mX0_isUnionOf_f18 rfl rfl dX0_isUnionOf_47 ?_
    refine r_aload_n G 0 rfl rfl dX0_isUnionOf_50 ?_
    refine r_get G (C := RX0) (T := TX0) (N := 3) kX0_isUnionOf_X0 (66 + F) (cw_FAM ad κ _ hF) rfl 0 (by decide) mX0_isUnionOf_f11 rfl rfl dX0_isUnionOf_51 ?_
    refine r_iload_n G 1 rfl rfl dX0_isUnionOf_54 ?_
    obtain ⟨g5, h⟩ := og h
    refine r_aldq G (68 + F) 0 (cw_HELD ad κ _ hF) rfl (vin_in g5) rfl dX0_isUnionOf_55 ?_
    refine r_callVi G [.ref (ad (8 + 8 * F + p0.toNatClampNeg))] (qX2_sameAs hE (15 + 8 * F) (by have := hF; omega) (8 + 8 * F + p0.toNatClampNeg) (by have := vin_lt g5; have := hF; omega) _) ⟨(15 + 8 * F), 2, _, _, rfl, (cw_MS ad κ _ (by have := hF; omega)), rfl⟩ gX0_isUnionOf_X2_sameAs rfl hdX2_sameAs ⟨Nat.le_of_ble_eq_true rfl, Nat.le_of_ble_eq_true rfl⟩ (Nat.le_of_ble_eq_true rfl) rfl ⟨Nat.le_of_ble_eq_true rfl, Nat.le_of_ble_eq_true rfl⟩ rfl rfl dX0_isUnionOf_56 (fun r6 s6 hp hn6 => ?_)
    obtain ⟨rfl, hs⟩ := hp
    have hs := hs.symm
    subst hs
    exact hret _ _ _ _ _ _ dX0_isUnionOf_59 (Option.some.inj h).symm hn6 (Nat.le_of_ble_eq_true rfl) (Nat.le_of_ble_eq_true rfl)
abbrev rmX0_primePlaces : Room := { frames := 2, cells := 0, slots := 0, locals := 49 }
set_option maxRecDepth 20000 in
theorem kX0_primePlaces_X0 : ∀ w ∈ u_ws RX0 TX0 3, w ∈ wsX0_primePlaces := by decide +kernel
set_option maxRecDepth 20000 in
theorem mX0_primePlaces_f22 : Cond.fieldLink RX0 22 "SetCouncil$Family" "count" "I" ∈ wsX0_primePlaces := by decide +kernel
theorem hdX0_allPlaces : yX0_allPlaces.cls = RX0 ∧ yX0_allPlaces.cls ≠ "java/lang/invoke/MethodHandle" ∧ yX0_allPlaces.cls ≠ "java/lang/invoke/VarHandle" ∧ (parseMethodDescriptor yX0_allPlaces.desc).map (fun d => d.parameters.length) = some 0 := by decide +kernel
set_option maxRecDepth 20000 in
theorem mX0_primePlaces_f11 : Cond.fieldLink RX0 11 "SetCouncil$Family" "held" "[LSetCouncil$MemberSet;" ∈ wsX0_primePlaces := by decide +kernel
theorem hdX0_placesWithin : yX0_placesWithin.cls = RX0 ∧ yX0_placesWithin.cls ≠ "java/lang/invoke/MethodHandle" ∧ yX0_placesWithin.cls ≠ "java/lang/invoke/VarHandle" ∧ (parseMethodDescriptor yX0_placesWithin.desc).map (fun d => d.parameters.length) = some 2 := by decide +kernel
theorem hdX0_isUnionOf : yX0_isUnionOf.cls = RX0 ∧ yX0_isUnionOf.cls ≠ "java/lang/invoke/MethodHandle" ∧ yX0_isUnionOf.cls ≠ "java/lang/invoke/VarHandle" ∧ (parseMethodDescriptor yX0_isUnionOf.desc).map (fun d => d.parameters.length) = some 2 := by decide +kernel
set_option maxHeartbeats 4000000 in
set_option maxRecDepth 100000 in
theorem wX0_primePlaces_L4 {E : evT} {l : Launch} {D : va_G} {ad : Nat → Nat} {κ : Nat → ClassId} (hE : EvOk E) {Γ : cxT} (G : Cx (cW ad κ) D (tyA κ) E l Γ cX0_primePlaces RX0 wsX0_primePlaces 4 rmX0_primePlaces) (z0 : Nat) (hz0 : z0 < 2) {o : (Int32 × cS)} (hret : ∀ (st2 : cS) (v : Int32) (cells slots pc : Nat) (lv : List (Nat × Value)), decode cX0_primePlaces pc = .ok (.ireturn, 1) → o = (v, st2) → narrow .int (.int v) = .int v → cells ≤ rmX0_primePlaces.cells → slots ≤ rmX0_primePlaces.slots → V (cW ad κ) D Γ st2 cells slots pc lv [.int v]) : ∀ (fuel : Nat) (x1 : Int32) (x2 : Int32) (s : cS), fX0_primePlaces_L4 z0 fuel x1 x2 s = some o → V (cW ad κ) D Γ s 0 0 4 [(0, .ref (ad (66 + z0))), (1, .int x1), (2, .int x2)] [] := by
  intro fuel
  induction fuel with
  | zero =>
    intro _ _ _ h
    have h : none = some o := h
    cases h
  | succ fuel ih =>
    intro x1 x2 s h
    rw [fX0_primePlaces_L4] at h
    refine r_iload_n G 2 rfl rfl dX0_primePlaces_4 ?_
    refine r_aload_n G 0 rfl rfl dX0_primePlaces_5 ?_
    refine r_get G (C := RX0) (T := TX0) (N := 3) kX0_primePlaces_X0 (66 + z0) (cw_FAM ad κ _ hz0) rfl 2 (by decide) mX0_primePlaces_f22 rfl rfl dX0_primePlaces_6 ?_
    refine r_icmp_ge G (tgt := 54) dX0_primePlaces_9 (by decide) (fun c => ?_) (fun c => ?_)
    · rw [if_pos c] at h
      refine r_iload_n G 1 rfl rfl dX0_primePlaces_54 ?_
      exact hret _ _ _ _ _ _ dX0_primePlaces_55 (Option.some.inj h).symm rfl (Nat.le_of_ble_eq_true rfl) (Nat.le_of_ble_eq_true rfl)
    · rw [if_neg c] at h
      refine r_aload_n G 0 rfl rfl dX0_primePlaces_12 ?_
      refine r_callVi G [] (qX0_allPlaces hE z0 hz0 _) ⟨(66 + z0), 0, _, _, rfl, (cw_FAM ad κ _ hz0), rfl⟩ gX0_primePlaces_X0_allPlaces rfl hdX0_allPlaces ⟨Nat.le_of_ble_eq_true rfl, Nat.le_of_ble_eq_true rfl⟩ (Nat.le_of_ble_eq_true rfl) rfl ⟨Nat.le_of_ble_eq_true rfl, Nat.le_of_ble_eq_true rfl⟩ rfl rfl dX0_primePlaces_13 (fun r1 s1 hp hn1 => ?_)
      obtain ⟨rfl, hs⟩ := hp
      have hs := hs.symm
      subst hs
      refine r_iconst G (v := 1) (by decide) dX0_primePlaces_16 ?_
      refine r_iload_n G 2 rfl rfl dX0_primePlaces_17 ?_
      refine r_ishl G dX0_primePlaces_18 ?_
      refine r_iconst G (v := (-1)) (by decide) dX0_primePlaces_19 ?_
      refine r_ixor G dX0_primePlaces_20 ?_
      refine r_iand G dX0_primePlaces_21 ?_
      refine r_istore_n G [1, 2, 3, 0] rfl rfl (by decide) dX0_primePlaces_22 ?_
      refine r_aload_n G 0 rfl rfl dX0_primePlaces_23 ?_
      refine r_iload_n G 2 rfl rfl dX0_primePlaces_24 ?_
      refine r_aload_n G 0 rfl rfl dX0_primePlaces_25 ?_
      refine r_iload_n G 3 rfl rfl dX0_primePlaces_26 ?_
      refine r_aload_n G 0 rfl rfl dX0_primePlaces_27 ?_
      refine r_get G (C := RX0) (T := TX0) (N := 3) kX0_primePlaces_X0 (66 + z0) (cw_FAM ad κ _ hz0) rfl 0 (by decide) mX0_primePlaces_f11 rfl rfl dX0_primePlaces_28 ?_
      refine r_iload_n G 2 rfl rfl dX0_primePlaces_31 ?_
      obtain ⟨g2, h⟩ := og h
      refine r_aldq G (68 + z0) 0 (cw_HELD ad κ _ hz0) rfl (vin_in g2) rfl dX0_primePlaces_32 ?_
      obtain ⟨o3, e3, h⟩ := ob h
      refine r_callVi G [.int ((fX0_allPlaces z0 s) &&& ((1 <<< (x2 &&& 31)) ^^^ (-1))), .ref (ad (8 + 8 * z0 + x2.toNatClampNeg))] (qX0_placesWithin hE z0 hz0 ((fX0_allPlaces z0 s) &&& ((1 <<< (x2 &&& 31)) ^^^ (-1))) (8 + 8 * z0 + x2.toNatClampNeg) (by have := vin_lt g2; have := hz0; omega) _ e3) ⟨(66 + z0), 0, _, _, rfl, (cw_FAM ad κ _ hz0), rfl⟩ gX0_primePlaces_X0_placesWithin rfl hdX0_placesWithin ⟨Nat.le_of_ble_eq_true rfl, Nat.le_of_ble_eq_true rfl⟩ (Nat.le_of_ble_eq_true rfl) rfl ⟨Nat.le_of_ble_eq_true rfl, Nat.le_of_ble_eq_true rfl⟩ rfl rfl dX0_primePlaces_33 (fun r3 s3 hp hn3 => ?_)
      subst hp
      try dsimp only at h
      obtain ⟨o4, e4, h⟩ := ob h
      refine r_callVi G [.int x2, .int r3] (qX0_isUnionOf hE z0 hz0 x2 r3 _ e4) ⟨(66 + z0), 0, _, _, rfl, (cw_FAM ad κ _ hz0), rfl⟩ gX0_primePlaces_X0_isUnionOf rfl hdX0_isUnionOf ⟨Nat.le_of_ble_eq_true rfl, Nat.le_of_ble_eq_true rfl⟩ (Nat.le_of_ble_eq_true rfl) rfl ⟨Nat.le_of_ble_eq_true rfl, Nat.le_of_ble_eq_true rfl⟩ rfl rfl dX0_primePlaces_36 (fun r4 s4 hp hn4 => ?_)
      subst hp
      try dsimp only at h
      refine r_if_ne G (tgt := 48) dX0_primePlaces_39 (by decide) (fun c => ?_) (fun c => ?_)
      · rw [if_neg c] at h
        refine r_iinc G (j := 2) rfl (v := x2 + 1) rfl [1, 2, 0] rfl (by decide) dX0_primePlaces_48 ?_
        refine r_goto G (tgt := 4) dX0_primePlaces_51 (by decide) ?_
        exact ih _ _ _ h
      · rw [if_pos c] at h
        refine r_iload_n G 1 rfl rfl dX0_primePlaces_42 ?_
        refine r_iconst G (v := 1) (by decide) dX0_primePlaces_43 ?_
        refine r_iload_n G 2 rfl rfl dX0_primePlaces_44 ?_
        refine r_ishl G dX0_primePlaces_45 ?_
        refine r_ior G dX0_primePlaces_46 ?_
        refine r_istore_n G [1, 0, 2] rfl rfl (by decide) dX0_primePlaces_47 ?_
        refine r_iinc G (j := 2) rfl (v := x2 + 1) rfl [1, 2, 0] rfl (by decide) dX0_primePlaces_48 ?_
        refine r_goto G (tgt := 4) dX0_primePlaces_51 (by decide) ?_
        exact ih _ _ _ h
set_option maxHeartbeats 4000000 in
set_option maxRecDepth 100000 in
theorem qX0_primePlaces {E : evT} {l : Launch} {D : va_G} {ad : Nat → Nat} {κ : Nat → ClassId} (hE : EvOk E) (F : Nat) (hF : F < 2) (s : cS) {o : (Int32 × cS)} (h : fX0_primePlaces F s = some o) : Ci l yX0_primePlaces wsX0_primePlaces rmX0_primePlaces (cW ad κ) E D (tyA κ) .int [.ref (ad (66 + F))] s (fun r s2 => o = (r, s2)) := by
  rw [fX0_primePlaces] at h
  refine s_i (cc := cX0_primePlaces) (nL := 4) (own := RX0) hE (cW_WA ad κ) (plainFor_of_name (by decide)) rfl rfl (Nat.le_of_ble_eq_true rfl) (fun Γ G hret => ?_)
  refine r_iconst G (v := 0) (by decide) dX0_primePlaces_0 ?_
  refine r_istore_n G [1, 0] rfl rfl (by decide) dX0_primePlaces_1 ?_
  refine r_iconst G (v := 0) (by decide) dX0_primePlaces_2 ?_
  refine r_istore_n G [1, 2, 0] rfl rfl (by decide) dX0_primePlaces_3 ?_
  refine wX0_primePlaces_L4 hE G _ hF hret 1100 _ _ _ h
abbrev rmX0_errors : Room := { frames := 3, cells := 0, slots := 0, locals := 72 }
theorem hdX0_primePlaces : yX0_primePlaces.cls = RX0 ∧ yX0_primePlaces.cls ≠ "java/lang/invoke/MethodHandle" ∧ yX0_primePlaces.cls ≠ "java/lang/invoke/VarHandle" ∧ (parseMethodDescriptor yX0_primePlaces.desc).map (fun d => d.parameters.length) = some 0 := by decide +kernel
set_option maxRecDepth 20000 in
theorem kX0_errors_X0 : ∀ w ∈ u_ws RX0 TX0 3, w ∈ wsX0_errors := by decide +kernel
set_option maxRecDepth 20000 in
theorem mX0_errors_f22 : Cond.fieldLink RX0 22 "SetCouncil$Family" "count" "I" ∈ wsX0_errors := by decide +kernel
set_option maxRecDepth 20000 in
theorem mX0_errors_f11 : Cond.fieldLink RX0 11 "SetCouncil$Family" "held" "[LSetCouncil$MemberSet;" ∈ wsX0_errors := by decide +kernel
set_option maxHeartbeats 4000000 in
set_option maxRecDepth 100000 in
theorem wX0_errors_L48 {E : evT} {l : Launch} {D : va_G} {ad : Nat → Nat} {κ : Nat → ClassId} (hE : EvOk E) {Γ : cxT} (G : Cx (cW ad κ) D (tyA κ) E l Γ cX0_errors RX0 wsX0_errors 6 rmX0_errors) (z0 : Nat) (hz0 : z0 < 2) (x1 : Int32) (x3 : Int32) (x4 : Int32) {o : (Int32 × cS)} (hret : ∀ (st2 : cS) (v : Int32) (cells slots pc : Nat) (lv : List (Nat × Value)), decode cX0_errors pc = .ok (.ireturn, 1) → o = (v, st2) → narrow .int (.int v) = .int v → cells ≤ rmX0_errors.cells → slots ≤ rmX0_errors.slots → V (cW ad κ) D Γ st2 cells slots pc lv [.int v]) {k0 : Int32 → cS → Option (Int32 × cS)} (hk0 : ∀ (y2 : Int32) (s : cS), k0 y2 s = some o → V (cW ad κ) D Γ s 0 0 83 [(0, .ref (ad (66 + z0))), (1, .int x1), (2, .int y2), (3, .int x3)] []) : ∀ (fuel : Nat) (x2 : Int32) (x5 : Int32) (s : cS), fX0_errors_L48 z0 x1 x3 x4 k0 fuel x2 x5 s = some o → V (cW ad κ) D Γ s 0 0 48 [(0, .ref (ad (66 + z0))), (1, .int x1), (2, .int x2), (3, .int x3), (4, .int x4), (5, .int x5)] [] := by
  intro fuel
  induction fuel with
  | zero =>
    intro _ _ _ h
    have h : none = some o := h
    cases h
  | succ fuel ih =>
    intro x2 x5 s h
    rw [fX0_errors_L48] at h
    refine r_iload G 5 rfl dX0_errors_48 ?_
    refine r_aload_n G 0 rfl rfl dX0_errors_50 ?_
    refine r_get G (C := RX0) (T := TX0) (N := 3) kX0_errors_X0 (66 + z0) (cw_FAM ad κ _ hz0) rfl 2 (by decide) mX0_errors_f22 rfl rfl dX0_errors_51 ?_
    refine r_icmp_ge G (tgt := 83) dX0_errors_54 (by decide) (fun c => ?_) (fun c => ?_)
    · rw [if_pos c] at h
      refine V.sub [0, 1, 2, 3] rfl ?_
      exact hk0 _ _ h
    · rw [if_neg c] at h
      refine r_iload G 4 rfl dX0_errors_57 ?_
      refine r_aload_n G 0 rfl rfl dX0_errors_59 ?_
      refine r_iload_n G 1 rfl rfl dX0_errors_60 ?_
      refine r_aload_n G 0 rfl rfl dX0_errors_61 ?_
      refine r_get G (C := RX0) (T := TX0) (N := 3) kX0_errors_X0 (66 + z0) (cw_FAM ad κ _ hz0) rfl 0 (by decide) mX0_errors_f11 rfl rfl dX0_errors_62 ?_
      refine r_iload G 5 rfl dX0_errors_65 ?_
      obtain ⟨g5, h⟩ := og h
      refine r_aldq G (68 + z0) 0 (cw_HELD ad κ _ hz0) rfl (vin_in g5) rfl dX0_errors_67 ?_
      obtain ⟨o6, e6, h⟩ := ob h
      refine r_callVi G [.int x1, .ref (ad (8 + 8 * z0 + x5.toNatClampNeg))] (qX0_placesWithin hE z0 hz0 x1 (8 + 8 * z0 + x5.toNatClampNeg) (by have := vin_lt g5; have := hz0; omega) _ e6) ⟨(66 + z0), 0, _, _, rfl, (cw_FAM ad κ _ hz0), rfl⟩ gX0_errors_X0_placesWithin rfl hdX0_placesWithin ⟨Nat.le_of_ble_eq_true rfl, Nat.le_of_ble_eq_true rfl⟩ (Nat.le_of_ble_eq_true rfl) rfl ⟨Nat.le_of_ble_eq_true rfl, Nat.le_of_ble_eq_true rfl⟩ rfl rfl dX0_errors_68 (fun r6 s6 hp hn6 => ?_)
      subst hp
      try dsimp only at h
      refine r_icmp_ne G (tgt := 77) dX0_errors_71 (by decide) (fun c => ?_) (fun c => ?_)
      · rw [if_neg c] at h
        refine r_iinc G (j := 5) rfl (v := x5 + 1) rfl [1, 2, 3, 4, 5, 0] rfl (by decide) dX0_errors_77 ?_
        refine r_goto G (tgt := 48) dX0_errors_80 (by decide) ?_
        exact ih _ _ _ h
      · rw [if_pos c] at h
        refine r_iinc G (j := 2) rfl (v := x2 + 1) rfl [1, 2, 0, 3, 4, 5] rfl (by decide) dX0_errors_74 ?_
        refine r_iinc G (j := 5) rfl (v := x5 + 1) rfl [1, 2, 3, 4, 5, 0] rfl (by decide) dX0_errors_77 ?_
        refine r_goto G (tgt := 48) dX0_errors_80 (by decide) ?_
        exact ih _ _ _ h
set_option maxHeartbeats 4000000 in
set_option maxRecDepth 100000 in
theorem wX0_errors_L9 {E : evT} {l : Launch} {D : va_G} {ad : Nat → Nat} {κ : Nat → ClassId} (hE : EvOk E) {Γ : cxT} (G : Cx (cW ad κ) D (tyA κ) E l Γ cX0_errors RX0 wsX0_errors 6 rmX0_errors) (z0 : Nat) (hz0 : z0 < 2) (x1 : Int32) {o : (Int32 × cS)} (hret : ∀ (st2 : cS) (v : Int32) (cells slots pc : Nat) (lv : List (Nat × Value)), decode cX0_errors pc = .ok (.ireturn, 1) → o = (v, st2) → narrow .int (.int v) = .int v → cells ≤ rmX0_errors.cells → slots ≤ rmX0_errors.slots → V (cW ad κ) D Γ st2 cells slots pc lv [.int v]) : ∀ (fuel : Nat) (x2 : Int32) (x3 : Int32) (s : cS), fX0_errors_L9 z0 x1 fuel x2 x3 s = some o → V (cW ad κ) D Γ s 0 0 9 [(0, .ref (ad (66 + z0))), (1, .int x1), (2, .int x2), (3, .int x3)] [] := by
  intro fuel
  induction fuel with
  | zero =>
    intro _ _ _ h
    have h : none = some o := h
    cases h
  | succ fuel ih =>
    intro x2 x3 s h
    rw [fX0_errors_L9] at h
    refine r_iload_n G 3 rfl rfl dX0_errors_9 ?_
    refine r_aload_n G 0 rfl rfl dX0_errors_10 ?_
    refine r_get G (C := RX0) (T := TX0) (N := 3) kX0_errors_X0 (66 + z0) (cw_FAM ad κ _ hz0) rfl 2 (by decide) mX0_errors_f22 rfl rfl dX0_errors_11 ?_
    refine r_icmp_ge G (tgt := 89) dX0_errors_14 (by decide) (fun c => ?_) (fun c => ?_)
    · rw [if_pos c] at h
      refine r_iload_n G 2 rfl rfl dX0_errors_89 ?_
      exact hret _ _ _ _ _ _ dX0_errors_90 (Option.some.inj h).symm rfl (Nat.le_of_ble_eq_true rfl) (Nat.le_of_ble_eq_true rfl)
    · rw [if_neg c] at h
      refine r_aload_n G 0 rfl rfl dX0_errors_17 ?_
      refine r_iload_n G 1 rfl rfl dX0_errors_18 ?_
      refine r_aload_n G 0 rfl rfl dX0_errors_19 ?_
      refine r_get G (C := RX0) (T := TX0) (N := 3) kX0_errors_X0 (66 + z0) (cw_FAM ad κ _ hz0) rfl 0 (by decide) mX0_errors_f11 rfl rfl dX0_errors_20 ?_
      refine r_iload_n G 3 rfl rfl dX0_errors_23 ?_
      obtain ⟨g2, h⟩ := og h
      refine r_aldq G (68 + z0) 0 (cw_HELD ad κ _ hz0) rfl (vin_in g2) rfl dX0_errors_24 ?_
      obtain ⟨o3, e3, h⟩ := ob h
      refine r_callVi G [.int x1, .ref (ad (8 + 8 * z0 + x3.toNatClampNeg))] (qX0_placesWithin hE z0 hz0 x1 (8 + 8 * z0 + x3.toNatClampNeg) (by have := vin_lt g2; have := hz0; omega) _ e3) ⟨(66 + z0), 0, _, _, rfl, (cw_FAM ad κ _ hz0), rfl⟩ gX0_errors_X0_placesWithin rfl hdX0_placesWithin ⟨Nat.le_of_ble_eq_true rfl, Nat.le_of_ble_eq_true rfl⟩ (Nat.le_of_ble_eq_true rfl) rfl ⟨Nat.le_of_ble_eq_true rfl, Nat.le_of_ble_eq_true rfl⟩ rfl rfl dX0_errors_25 (fun r3 s3 hp hn3 => ?_)
      subst hp
      try dsimp only at h
      refine r_istore G [1, 2, 3, 4, 0] rfl (by decide) dX0_errors_28 ?_
      refine r_aload_n G 0 rfl rfl dX0_errors_30 ?_
      refine r_iload_n G 3 rfl rfl dX0_errors_31 ?_
      refine r_iload G 4 rfl dX0_errors_32 ?_
      obtain ⟨o4, e4, h⟩ := ob h
      refine r_callVi G [.int x3, .int r3] (qX0_isUnionOf hE z0 hz0 x3 r3 _ e4) ⟨(66 + z0), 0, _, _, rfl, (cw_FAM ad κ _ hz0), rfl⟩ gX0_errors_X0_isUnionOf rfl hdX0_isUnionOf ⟨Nat.le_of_ble_eq_true rfl, Nat.le_of_ble_eq_true rfl⟩ (Nat.le_of_ble_eq_true rfl) rfl ⟨Nat.le_of_ble_eq_true rfl, Nat.le_of_ble_eq_true rfl⟩ rfl rfl dX0_errors_34 (fun r4 s4 hp hn4 => ?_)
      subst hp
      try dsimp only at h
      refine r_if_ne G (tgt := 43) dX0_errors_37 (by decide) (fun c => ?_) (fun c => ?_)
      · rw [if_neg c] at h
        refine r_iload_n G 3 rfl rfl dX0_errors_43 ?_
        refine r_iconst G (v := 1) (by decide) dX0_errors_44 ?_
        refine r_iadd G dX0_errors_45 ?_
        refine r_istore G [1, 2, 3, 4, 5, 0] rfl (by decide) dX0_errors_46 ?_
        refine wX0_errors_L48 hE G _ hz0 _ _ _ hret (fun y2_7 s7 h => ?_) 1100 _ _ _ h
        · try dsimp only at h
          refine r_iinc G (j := 3) rfl (v := x3 + 1) rfl [1, 2, 3, 0] rfl (by decide) dX0_errors_83 ?_
          refine r_goto G (tgt := 9) dX0_errors_86 (by decide) ?_
          exact ih _ _ _ h
      · rw [if_pos c] at h
        refine r_iinc G (j := 2) rfl (v := x2 + 1) rfl [1, 2, 0, 3, 4] rfl (by decide) dX0_errors_40 ?_
        refine r_iload_n G 3 rfl rfl dX0_errors_43 ?_
        refine r_iconst G (v := 1) (by decide) dX0_errors_44 ?_
        refine r_iadd G dX0_errors_45 ?_
        refine r_istore G [1, 2, 3, 4, 5, 0] rfl (by decide) dX0_errors_46 ?_
        refine wX0_errors_L48 hE G _ hz0 _ _ _ hret (fun y2_8 s8 h => ?_) 1100 _ _ _ h
        · try dsimp only at h
          refine r_iinc G (j := 3) rfl (v := x3 + 1) rfl [1, 2, 3, 0] rfl (by decide) dX0_errors_83 ?_
          refine r_goto G (tgt := 9) dX0_errors_86 (by decide) ?_
          exact ih _ _ _ h
set_option maxHeartbeats 4000000 in
set_option maxRecDepth 100000 in
theorem qX0_errors {E : evT} {l : Launch} {D : va_G} {ad : Nat → Nat} {κ : Nat → ClassId} (hE : EvOk E) (F : Nat) (hF : F < 2) (s : cS) {o : (Int32 × cS)} (h : fX0_errors F s = some o) : Ci l yX0_errors wsX0_errors rmX0_errors (cW ad κ) E D (tyA κ) .int [.ref (ad (66 + F))] s (fun r s2 => o = (r, s2)) := by
  rw [fX0_errors] at h
  refine s_i (cc := cX0_errors) (nL := 6) (own := RX0) hE (cW_WA ad κ) (plainFor_of_name (by decide)) rfl rfl (Nat.le_of_ble_eq_true rfl) (fun Γ G hret => ?_)
  refine r_aload_n G 0 rfl rfl dX0_errors_0 ?_
  obtain ⟨o1, e1, h⟩ := ob h
  refine r_callVi G [] (qX0_primePlaces hE F hF _ e1) ⟨(66 + F), 0, _, _, rfl, (cw_FAM ad κ _ hF), rfl⟩ gX0_errors_X0_primePlaces rfl hdX0_primePlaces ⟨Nat.le_of_ble_eq_true rfl, Nat.le_of_ble_eq_true rfl⟩ (Nat.le_of_ble_eq_true rfl) rfl ⟨Nat.le_of_ble_eq_true rfl, Nat.le_of_ble_eq_true rfl⟩ rfl rfl dX0_errors_1 (fun r1 s1 hp hn1 => ?_)
  subst hp
  try dsimp only at h
  refine r_istore_n G [1, 0] rfl rfl (by decide) dX0_errors_4 ?_
  refine r_iconst G (v := 0) (by decide) dX0_errors_5 ?_
  refine r_istore_n G [1, 2, 0] rfl rfl (by decide) dX0_errors_6 ?_
  refine r_iconst G (v := 0) (by decide) dX0_errors_7 ?_
  refine r_istore_n G [1, 2, 3, 0] rfl rfl (by decide) dX0_errors_8 ?_
  refine wX0_errors_L9 hE G _ hF _ hret 1100 _ _ _ h
