abbrev rmX7_drop : Room := { frames := 7, cells := 1, slots := 6, locals := 113 }
set_option maxRecDepth 20000 in
theorem kX7_drop_X7 : ∀ w ∈ u_ws RX7 TX7 8, w ∈ wsX7_drop := by decide +kernel
set_option maxRecDepth 20000 in
theorem mX7_drop_f28 : Cond.fieldLink RX7 28 "SetCouncil" "family" "LSetCouncil$Family;" ∈ wsX7_drop := by decide +kernel
theorem hdX0_leave : yX0_leave.cls = RX0 ∧ yX0_leave.cls ≠ "java/lang/invoke/MethodHandle" ∧ yX0_leave.cls ≠ "java/lang/invoke/VarHandle" ∧ (parseMethodDescriptor yX0_leave.desc).map (fun d => d.parameters.length) = some 1 := by decide +kernel
set_option maxHeartbeats 4000000 in
set_option maxRecDepth 100000 in
theorem qX7_drop {E : evT} {l : Launch} {D : va_G} {ad : Nat → Nat} {κ : Nat → ClassId} (hE : EvOk E) (hT : TOk E) (hfl : l.stackTraces = false) (p0 : Int32) (s : cS) {o : ((Nat × cS) ⊕ (Int32 × cS))} (h : fX7_drop p0 s = some o) : Xi l yX7_drop wsX7_drop rmX7_drop (cW ad κ) E D (tyA κ) .boolean [.ref (ad 55), .int p0] s (fun r s2 => o = .inr (r, s2)) (fun e s2 => o = .inl (e, s2)) := by
  rw [fX7_drop] at h
  refine s_xi (cc := cX7_drop) (nL := 2) (own := RX7) hE (cW_WA ad κ) (by decide) rfl rfl (Nat.le_of_ble_eq_true rfl) (fun Γ Qc G X9 hret => ?_)
  refine r_aload_n G 0 rfl rfl dX7_drop_0 ?_
  refine r_get G (C := RX7) (T := TX7) (N := 8) kX7_drop_X7 55 (cw_SC ad κ _) rfl 2 (by decide) mX7_drop_f28 rfl rfl dX7_drop_1 ?_
  refine r_aload_n G 0 rfl rfl dX7_drop_4 ?_
  refine r_iload_n G 1 rfl rfl dX7_drop_5 ?_
  obtain ⟨o1, e1, h⟩ := ob h
  refine r_callVrx G [.int p0] (qX7_setAt hE hT hfl p0 _ e1) ⟨55, 7, _, _, rfl, (cw_SC ad κ _), rfl⟩ gX7_drop_X7_setAt rfl hdX7_setAt ⟨Nat.le_of_ble_eq_true rfl, Nat.le_of_ble_eq_true rfl⟩ (Nat.le_of_ble_eq_true rfl) rfl ⟨Nat.le_of_ble_eq_true rfl, Nat.le_of_ble_eq_true rfl⟩ rfl rfl dX7_drop_6 (fun k9 st9 hp9 => by subst hp9; exact r_out G X9 (fun _ hx => nomatch hx) (Option.some.inj h).symm (Nat.le_of_ble_eq_true rfl) (Nat.le_of_ble_eq_true rfl)) (fun r1 s1 hp => ?_)
  subst hp
  try dsimp only [Sum.elim_inr] at h
  obtain ⟨g2, h⟩ := og h
  obtain ⟨o3, e3, h⟩ := ob h
  refine r_callVi G [.ref (ad r1)] (qX0_leave hE 0 (by decide) r1 g2 _ e3) ⟨(66 + 0), 0, _, _, rfl, (cw_FAM ad κ _ (by decide)), rfl⟩ gX7_drop_X0_leave rfl hdX0_leave ⟨Nat.le_of_ble_eq_true rfl, Nat.le_of_ble_eq_true rfl⟩ (Nat.le_of_ble_eq_true rfl) rfl ⟨Nat.le_of_ble_eq_true rfl, Nat.le_of_ble_eq_true rfl⟩ rfl rfl dX7_drop_9 (fun r3 s3 hp hn3 => ?_)
  subst hp
  try dsimp only at h
  exact hret _ _ _ _ _ _ dX7_drop_12 (Option.some.inj h).symm hn3 (Nat.le_of_ble_eq_true rfl) (Nat.le_of_ble_eq_true rfl)
abbrev rmX7_isKept : Room := { frames := 7, cells := 1, slots := 6, locals := 113 }
set_option maxRecDepth 20000 in
theorem kX7_isKept_X7 : ∀ w ∈ u_ws RX7 TX7 8, w ∈ wsX7_isKept := by decide +kernel
set_option maxRecDepth 20000 in
theorem mX7_isKept_f28 : Cond.fieldLink RX7 28 "SetCouncil" "family" "LSetCouncil$Family;" ∈ wsX7_isKept := by decide +kernel
set_option maxHeartbeats 4000000 in
set_option maxRecDepth 100000 in
theorem qX7_isKept {E : evT} {l : Launch} {D : va_G} {ad : Nat → Nat} {κ : Nat → ClassId} (hE : EvOk E) (hT : TOk E) (hfl : l.stackTraces = false) (p0 : Int32) (s : cS) {o : ((Nat × cS) ⊕ (Int32 × cS))} (h : fX7_isKept p0 s = some o) : Xi l yX7_isKept wsX7_isKept rmX7_isKept (cW ad κ) E D (tyA κ) .boolean [.ref (ad 55), .int p0] s (fun r s2 => o = .inr (r, s2)) (fun e s2 => o = .inl (e, s2)) := by
  rw [fX7_isKept] at h
  refine s_xi (cc := cX7_isKept) (nL := 2) (own := RX7) hE (cW_WA ad κ) (by decide) rfl rfl (Nat.le_of_ble_eq_true rfl) (fun Γ Qc G X9 hret => ?_)
  refine r_aload_n G 0 rfl rfl dX7_isKept_0 ?_
  refine r_get G (C := RX7) (T := TX7) (N := 8) kX7_isKept_X7 55 (cw_SC ad κ _) rfl 2 (by decide) mX7_isKept_f28 rfl rfl dX7_isKept_1 ?_
  refine r_aload_n G 0 rfl rfl dX7_isKept_4 ?_
  refine r_iload_n G 1 rfl rfl dX7_isKept_5 ?_
  obtain ⟨o1, e1, h⟩ := ob h
  refine r_callVrx G [.int p0] (qX7_setAt hE hT hfl p0 _ e1) ⟨55, 7, _, _, rfl, (cw_SC ad κ _), rfl⟩ gX7_isKept_X7_setAt rfl hdX7_setAt ⟨Nat.le_of_ble_eq_true rfl, Nat.le_of_ble_eq_true rfl⟩ (Nat.le_of_ble_eq_true rfl) rfl ⟨Nat.le_of_ble_eq_true rfl, Nat.le_of_ble_eq_true rfl⟩ rfl rfl dX7_isKept_6 (fun k9 st9 hp9 => by subst hp9; exact r_out G X9 (fun _ hx => nomatch hx) (Option.some.inj h).symm (Nat.le_of_ble_eq_true rfl) (Nat.le_of_ble_eq_true rfl)) (fun r1 s1 hp => ?_)
  subst hp
  try dsimp only [Sum.elim_inr] at h
  obtain ⟨g2, h⟩ := og h
  obtain ⟨o3, e3, h⟩ := ob h
  refine r_callVi G [.ref (ad r1)] (qX0_find hE 0 (by decide) r1 g2 _ e3) ⟨(66 + 0), 0, _, _, rfl, (cw_FAM ad κ _ (by decide)), rfl⟩ gX7_isKept_X0_find rfl hdX0_find ⟨Nat.le_of_ble_eq_true rfl, Nat.le_of_ble_eq_true rfl⟩ (Nat.le_of_ble_eq_true rfl) rfl ⟨Nat.le_of_ble_eq_true rfl, Nat.le_of_ble_eq_true rfl⟩ rfl rfl dX7_isKept_9 (fun r3 s3 hp hn3 => ?_)
  subst hp
  try dsimp only at h
  refine r_iconst G (v := (-1)) (by decide) dX7_isKept_12 ?_
  refine r_icmp_eq G (tgt := 20) dX7_isKept_13 (by decide) (fun c => ?_) (fun c => ?_)
  · rw [if_pos c] at h
    refine r_iconst G (v := 0) (by decide) dX7_isKept_20 ?_
    exact hret _ _ _ _ _ _ dX7_isKept_21 (Option.some.inj h).symm rfl (Nat.le_of_ble_eq_true rfl) (Nat.le_of_ble_eq_true rfl)
  · rw [if_neg c] at h
    refine r_iconst G (v := 1) (by decide) dX7_isKept_16 ?_
    refine r_goto G (tgt := 21) dX7_isKept_17 (by decide) ?_
    exact hret _ _ _ _ _ _ dX7_isKept_21 (Option.some.inj h).symm rfl (Nat.le_of_ble_eq_true rfl) (Nat.le_of_ble_eq_true rfl)
abbrev rmX7_kept : Room := { frames := 1, cells := 0, slots := 0, locals := 20 }
set_option maxRecDepth 20000 in
theorem kX7_kept_X7 : ∀ w ∈ u_ws RX7 TX7 8, w ∈ wsX7_kept := by decide +kernel
set_option maxRecDepth 20000 in
theorem mX7_kept_f28 : Cond.fieldLink RX7 28 "SetCouncil" "family" "LSetCouncil$Family;" ∈ wsX7_kept := by decide +kernel
theorem hdX0_count : yX0_count.cls = RX0 ∧ yX0_count.cls ≠ "java/lang/invoke/MethodHandle" ∧ yX0_count.cls ≠ "java/lang/invoke/VarHandle" ∧ (parseMethodDescriptor yX0_count.desc).map (fun d => d.parameters.length) = some 0 := by decide +kernel
set_option maxHeartbeats 4000000 in
set_option maxRecDepth 100000 in
theorem qX7_kept {E : evT} {l : Launch} {D : va_G} {ad : Nat → Nat} {κ : Nat → ClassId} (hE : EvOk E) (s : cS) : Ci l yX7_kept wsX7_kept rmX7_kept (cW ad κ) E D (tyA κ) .int [.ref (ad 55)] s (fun r s2 => r = fX7_kept s ∧ s2 = s) := by
  obtain ⟨o, h⟩ : ∃ o, fX7_kept s = o := ⟨_, rfl⟩
  rw [h]
  rw [fX7_kept] at h
  refine s_i (cc := cX7_kept) (nL := 1) (own := RX7) hE (cW_WA ad κ) (plainFor_of_name (by decide)) rfl rfl (Nat.le_of_ble_eq_true rfl) (fun Γ G hret => ?_)
  refine r_aload_n G 0 rfl rfl dX7_kept_0 ?_
  refine r_get G (C := RX7) (T := TX7) (N := 8) kX7_kept_X7 55 (cw_SC ad κ _) rfl 2 (by decide) mX7_kept_f28 rfl rfl dX7_kept_1 ?_
  refine r_callVi G [] (qX0_count hE 0 (by decide) _) ⟨(66 + 0), 0, _, _, rfl, (cw_FAM ad κ _ (by decide)), rfl⟩ gX7_kept_X0_count rfl hdX0_count ⟨Nat.le_of_ble_eq_true rfl, Nat.le_of_ble_eq_true rfl⟩ (Nat.le_of_ble_eq_true rfl) rfl ⟨Nat.le_of_ble_eq_true rfl, Nat.le_of_ble_eq_true rfl⟩ rfl rfl dX7_kept_4 (fun r1 s1 hp hn1 => ?_)
  obtain ⟨rfl, hs⟩ := hp
  have hs := hs.symm
  subst hs
  exact hret _ _ _ _ _ _ dX7_kept_7 ⟨h, rfl⟩ rfl (Nat.le_of_ble_eq_true rfl) (Nat.le_of_ble_eq_true rfl)
abbrev rmX7_keptSum : Room := { frames := 3, cells := 0, slots := 0, locals := 67 }
set_option maxRecDepth 20000 in
theorem kX7_keptSum_X7 : ∀ w ∈ u_ws RX7 TX7 8, w ∈ wsX7_keptSum := by decide +kernel
set_option maxRecDepth 20000 in
theorem mX7_keptSum_f28 : Cond.fieldLink RX7 28 "SetCouncil" "family" "LSetCouncil$Family;" ∈ wsX7_keptSum := by decide +kernel
theorem hdX0_total : yX0_total.cls = RX0 ∧ yX0_total.cls ≠ "java/lang/invoke/MethodHandle" ∧ yX0_total.cls ≠ "java/lang/invoke/VarHandle" ∧ (parseMethodDescriptor yX0_total.desc).map (fun d => d.parameters.length) = some 0 := by decide +kernel
set_option maxHeartbeats 4000000 in
set_option maxRecDepth 100000 in
theorem qX7_keptSum {E : evT} {l : Launch} {D : va_G} {ad : Nat → Nat} {κ : Nat → ClassId} (hE : EvOk E) (s : cS) {o : (Int32 × cS)} (h : fX7_keptSum s = some o) : Ci l yX7_keptSum wsX7_keptSum rmX7_keptSum (cW ad κ) E D (tyA κ) .int [.ref (ad 55)] s (fun r s2 => o = (r, s2)) := by
  rw [fX7_keptSum] at h
  refine s_i (cc := cX7_keptSum) (nL := 1) (own := RX7) hE (cW_WA ad κ) (plainFor_of_name (by decide)) rfl rfl (Nat.le_of_ble_eq_true rfl) (fun Γ G hret => ?_)
  refine r_aload_n G 0 rfl rfl dX7_keptSum_0 ?_
  refine r_get G (C := RX7) (T := TX7) (N := 8) kX7_keptSum_X7 55 (cw_SC ad κ _) rfl 2 (by decide) mX7_keptSum_f28 rfl rfl dX7_keptSum_1 ?_
  obtain ⟨o1, e1, h⟩ := ob h
  refine r_callVi G [] (qX0_total hE 0 (by decide) _ e1) ⟨(66 + 0), 0, _, _, rfl, (cw_FAM ad κ _ (by decide)), rfl⟩ gX7_keptSum_X0_total rfl hdX0_total ⟨Nat.le_of_ble_eq_true rfl, Nat.le_of_ble_eq_true rfl⟩ (Nat.le_of_ble_eq_true rfl) rfl ⟨Nat.le_of_ble_eq_true rfl, Nat.le_of_ble_eq_true rfl⟩ rfl rfl dX7_keptSum_4 (fun r1 s1 hp hn1 => ?_)
  subst hp
  try dsimp only at h
  exact hret _ _ _ _ _ _ dX7_keptSum_7 (Option.some.inj h).symm rfl (Nat.le_of_ble_eq_true rfl) (Nat.le_of_ble_eq_true rfl)
abbrev rmX7_dropAll : Room := { frames := 1, cells := 0, slots := 0, locals := 20 }
set_option maxRecDepth 20000 in
theorem kX7_dropAll_X7 : ∀ w ∈ u_ws RX7 TX7 8, w ∈ wsX7_dropAll := by decide +kernel
set_option maxRecDepth 20000 in
theorem mX7_dropAll_f28 : Cond.fieldLink RX7 28 "SetCouncil" "family" "LSetCouncil$Family;" ∈ wsX7_dropAll := by decide +kernel
theorem hdX0_empty : yX0_empty.cls = RX0 ∧ yX0_empty.cls ≠ "java/lang/invoke/MethodHandle" ∧ yX0_empty.cls ≠ "java/lang/invoke/VarHandle" ∧ (parseMethodDescriptor yX0_empty.desc).map (fun d => d.parameters.length) = some 0 := by decide +kernel
set_option maxHeartbeats 4000000 in
set_option maxRecDepth 100000 in
theorem qX7_dropAll {E : evT} {l : Launch} {D : va_G} {ad : Nat → Nat} {κ : Nat → ClassId} (hE : EvOk E) (s : cS) {o : (Int32 × cS)} (h : fX7_dropAll s = some o) : Ci l yX7_dropAll wsX7_dropAll rmX7_dropAll (cW ad κ) E D (tyA κ) .int [.ref (ad 55)] s (fun r s2 => o = (r, s2)) := by
  rw [fX7_dropAll] at h
  refine s_i (cc := cX7_dropAll) (nL := 2) (own := RX7) hE (cW_WA ad κ) (plainFor_of_name (by decide)) rfl rfl (Nat.le_of_ble_eq_true rfl) (fun Γ G hret => ?_)
  refine r_aload_n G 0 rfl rfl dX7_dropAll_0 ?_
  refine r_get G (C := RX7) (T := TX7) (N := 8) kX7_dropAll_X7 55 (cw_SC ad κ _) rfl 2 (by decide) mX7_dropAll_f28 rfl rfl dX7_dropAll_1 ?_
  refine r_callVi G [] (qX0_count hE 0 (by decide) _) ⟨(66 + 0), 0, _, _, rfl, (cw_FAM ad κ _ (by decide)), rfl⟩ gX7_dropAll_X0_count rfl hdX0_count ⟨Nat.le_of_ble_eq_true rfl, Nat.le_of_ble_eq_true rfl⟩ (Nat.le_of_ble_eq_true rfl) rfl ⟨Nat.le_of_ble_eq_true rfl, Nat.le_of_ble_eq_true rfl⟩ rfl rfl dX7_dropAll_4 (fun r1 s1 hp hn1 => ?_)
  obtain ⟨rfl, hs⟩ := hp
  have hs := hs.symm
  subst hs
  refine r_istore_n G [1, 0] rfl rfl (by decide) dX7_dropAll_7 ?_
  refine r_aload_n G 0 rfl rfl dX7_dropAll_8 ?_
  refine r_get G (C := RX7) (T := TX7) (N := 8) kX7_dropAll_X7 55 (cw_SC ad κ _) rfl 2 (by decide) mX7_dropAll_f28 rfl rfl dX7_dropAll_9 ?_
  obtain ⟨o2, e2, h⟩ := ob h
  refine r_callVv G [] (qX0_empty hE 0 (by decide) _ e2) ⟨(66 + 0), 0, _, _, rfl, (cw_FAM ad κ _ (by decide)), rfl⟩ gX7_dropAll_X0_empty rfl hdX0_empty ⟨Nat.le_of_ble_eq_true rfl, Nat.le_of_ble_eq_true rfl⟩ (Nat.le_of_ble_eq_true rfl) rfl ⟨Nat.le_of_ble_eq_true rfl, Nat.le_of_ble_eq_true rfl⟩ rfl rfl dX7_dropAll_12 (fun s2 hp => ?_)
  have hp := hp.symm
  subst hp
  try dsimp only at h
  refine r_iload_n G 1 rfl rfl dX7_dropAll_15 ?_
  exact hret _ _ _ _ _ _ dX7_dropAll_16 (Option.some.inj h).symm rfl (Nat.le_of_ble_eq_true rfl) (Nat.le_of_ble_eq_true rfl)
abbrev rmX7_placeOf : Room := { frames := 7, cells := 1, slots := 6, locals := 113 }
set_option maxRecDepth 20000 in
theorem kX7_placeOf_X7 : ∀ w ∈ u_ws RX7 TX7 8, w ∈ wsX7_placeOf := by decide +kernel
set_option maxRecDepth 20000 in
theorem mX7_placeOf_f28 : Cond.fieldLink RX7 28 "SetCouncil" "family" "LSetCouncil$Family;" ∈ wsX7_placeOf := by decide +kernel
set_option maxHeartbeats 4000000 in
set_option maxRecDepth 100000 in
theorem qX7_placeOf {E : evT} {l : Launch} {D : va_G} {ad : Nat → Nat} {κ : Nat → ClassId} (hE : EvOk E) (hT : TOk E) (hfl : l.stackTraces = false) (p0 : Int32) (s : cS) {o : ((Nat × cS) ⊕ (Int32 × cS))} (h : fX7_placeOf p0 s = some o) : Xi l yX7_placeOf wsX7_placeOf rmX7_placeOf (cW ad κ) E D (tyA κ) .int [.ref (ad 55), .int p0] s (fun r s2 => o = .inr (r, s2)) (fun e s2 => o = .inl (e, s2)) := by
  rw [fX7_placeOf] at h
  refine s_xi (cc := cX7_placeOf) (nL := 2) (own := RX7) hE (cW_WA ad κ) (by decide) rfl rfl (Nat.le_of_ble_eq_true rfl) (fun Γ Qc G X9 hret => ?_)
  refine r_aload_n G 0 rfl rfl dX7_placeOf_0 ?_
  refine r_get G (C := RX7) (T := TX7) (N := 8) kX7_placeOf_X7 55 (cw_SC ad κ _) rfl 2 (by decide) mX7_placeOf_f28 rfl rfl dX7_placeOf_1 ?_
  refine r_aload_n G 0 rfl rfl dX7_placeOf_4 ?_
  refine r_iload_n G 1 rfl rfl dX7_placeOf_5 ?_
  obtain ⟨o1, e1, h⟩ := ob h
  refine r_callVrx G [.int p0] (qX7_setAt hE hT hfl p0 _ e1) ⟨55, 7, _, _, rfl, (cw_SC ad κ _), rfl⟩ gX7_placeOf_X7_setAt rfl hdX7_setAt ⟨Nat.le_of_ble_eq_true rfl, Nat.le_of_ble_eq_true rfl⟩ (Nat.le_of_ble_eq_true rfl) rfl ⟨Nat.le_of_ble_eq_true rfl, Nat.le_of_ble_eq_true rfl⟩ rfl rfl dX7_placeOf_6 (fun k9 st9 hp9 => by subst hp9; exact r_out G X9 (fun _ hx => nomatch hx) (Option.some.inj h).symm (Nat.le_of_ble_eq_true rfl) (Nat.le_of_ble_eq_true rfl)) (fun r1 s1 hp => ?_)
  subst hp
  try dsimp only [Sum.elim_inr] at h
  obtain ⟨g2, h⟩ := og h
  obtain ⟨o3, e3, h⟩ := ob h
  refine r_callVi G [.ref (ad r1)] (qX0_find hE 0 (by decide) r1 g2 _ e3) ⟨(66 + 0), 0, _, _, rfl, (cw_FAM ad κ _ (by decide)), rfl⟩ gX7_placeOf_X0_find rfl hdX0_find ⟨Nat.le_of_ble_eq_true rfl, Nat.le_of_ble_eq_true rfl⟩ (Nat.le_of_ble_eq_true rfl) rfl ⟨Nat.le_of_ble_eq_true rfl, Nat.le_of_ble_eq_true rfl⟩ rfl rfl dX7_placeOf_9 (fun r3 s3 hp hn3 => ?_)
  subst hp
  try dsimp only at h
  exact hret _ _ _ _ _ _ dX7_placeOf_12 (Option.some.inj h).symm rfl (Nat.le_of_ble_eq_true rfl) (Nat.le_of_ble_eq_true rfl)
abbrev rmX7_take : Room := { frames := 7, cells := 2, slots := 12, locals := 113 }
set_option maxRecDepth 20000 in
theorem kX7_take_X7 : ∀ w ∈ u_ws RX7 TX7 8, w ∈ wsX7_take := by decide +kernel
set_option maxRecDepth 20000 in
theorem mX7_take_f28 : Cond.fieldLink RX7 28 "SetCouncil" "family" "LSetCouncil$Family;" ∈ wsX7_take := by decide +kernel
theorem hdX0_tell : yX0_tell.cls = RX0 ∧ yX0_tell.cls ≠ "java/lang/invoke/MethodHandle" ∧ yX0_tell.cls ≠ "java/lang/invoke/VarHandle" ∧ (parseMethodDescriptor yX0_tell.desc).map (fun d => d.parameters.length) = some 2 := by decide +kernel
set_option maxRecDepth 20000 in
theorem mX7_take_k100 : Cond.classLink RX7 100 "java/util/NoSuchElementException" ∈ wsX7_take := by decide +kernel
set_option maxRecDepth 20000 in
theorem mX7_take_i3 : Cond.initialized "java/util/NoSuchElementException" ∈ wsX7_take := by decide +kernel
set_option maxRecDepth 20000 in
theorem tX7_take_104 : ∀ w ∈ (nse_at RX7 104).filter goodWord, w ∈ wsX7_take := by decide +kernel
theorem sX7_166 : (RX7, 166, "the family has no such place") ∈ thS := by decide +kernel
set_option maxHeartbeats 4000000 in
set_option maxRecDepth 100000 in
theorem qX7_take {E : evT} {l : Launch} {D : va_G} {ad : Nat → Nat} {κ : Nat → ClassId} (hE : EvOk E) (hT : TOk E) (hfl : l.stackTraces = false) (p0 : Int32) (p1 : Int32) (s : cS) {o : ((Nat × cS) ⊕ (Int32 × cS))} (h : fX7_take p0 p1 s = some o) : Xi l yX7_take wsX7_take rmX7_take (cW ad κ) E D (tyA κ) .int [.ref (ad 55), .int p0, .int p1] s (fun r s2 => o = .inr (r, s2)) (fun e s2 => o = .inl (e, s2)) := by
  rw [fX7_take] at h
  refine s_xi (cc := cX7_take) (nL := 4) (own := RX7) hE (cW_WA ad κ) (by decide) rfl rfl (Nat.le_of_ble_eq_true rfl) (fun Γ Qc G X9 hret => ?_)
  refine r_aload_n G 0 rfl rfl dX7_take_0 ?_
  refine r_iload_n G 1 rfl rfl dX7_take_1 ?_
  obtain ⟨o1, e1, h⟩ := ob h
  refine r_callVrx G [.int p0] (qX7_setAt hE hT hfl p0 _ e1) ⟨55, 7, _, _, rfl, (cw_SC ad κ _), rfl⟩ gX7_take_X7_setAt rfl hdX7_setAt ⟨Nat.le_of_ble_eq_true rfl, Nat.le_of_ble_eq_true rfl⟩ (Nat.le_of_ble_eq_true rfl) rfl ⟨Nat.le_of_ble_eq_true rfl, Nat.le_of_ble_eq_true rfl⟩ rfl rfl dX7_take_2 (fun k9 st9 hp9 => by subst hp9; exact r_out G X9 (fun _ hx => nomatch hx) (Option.some.inj h).symm (Nat.le_of_ble_eq_true rfl) (Nat.le_of_ble_eq_true rfl)) (fun r1 s1 hp => ?_)
  subst hp
  try dsimp only [Sum.elim_inr] at h
  obtain ⟨g2, h⟩ := og h
  refine r_astore_n G [1, 3, 0] rfl rfl (by decide) dX7_take_5 ?_
  refine r_aload_n G 0 rfl rfl dX7_take_6 ?_
  refine r_get G (C := RX7) (T := TX7) (N := 8) kX7_take_X7 55 (cw_SC ad κ _) rfl 2 (by decide) mX7_take_f28 rfl rfl dX7_take_7 ?_
  refine r_iload_n G 1 rfl rfl dX7_take_10 ?_
  refine r_callVi G [.int p1] (qX0_hasPlace hE 0 (by decide) p1 _) ⟨(66 + 0), 0, _, _, rfl, (cw_FAM ad κ _ (by decide)), rfl⟩ gX7_take_X0_hasPlace rfl hdX0_hasPlace ⟨Nat.le_of_ble_eq_true rfl, Nat.le_of_ble_eq_true rfl⟩ (Nat.le_of_ble_eq_true rfl) rfl ⟨Nat.le_of_ble_eq_true rfl, Nat.le_of_ble_eq_true rfl⟩ rfl rfl dX7_take_11 (fun r3 s3 hp hn3 => ?_)
  obtain ⟨rfl, hs⟩ := hp
  have hs := hs.symm
  subst hs
  refine r_if_ne G (tgt := 27) dX7_take_14 (by decide) (fun c => ?_) (fun c => ?_)
  · rw [if_neg c] at h
    refine r_aload_n G 0 rfl rfl dX7_take_27 ?_
    refine r_get G (C := RX7) (T := TX7) (N := 8) kX7_take_X7 55 (cw_SC ad κ _) rfl 2 (by decide) mX7_take_f28 rfl rfl dX7_take_28 ?_
    refine r_iload_n G 1 rfl rfl dX7_take_31 ?_
    refine r_aload_n G 2 rfl rfl dX7_take_32 ?_
    obtain ⟨o4, e4, h⟩ := ob h
    refine r_callVv G [.int p1, .ref (ad r1)] (qX0_tell hE 0 (by decide) p1 r1 g2 _ e4) ⟨(66 + 0), 0, _, _, rfl, (cw_FAM ad κ _ (by decide)), rfl⟩ gX7_take_X0_tell rfl hdX0_tell ⟨Nat.le_of_ble_eq_true rfl, Nat.le_of_ble_eq_true rfl⟩ (Nat.le_of_ble_eq_true rfl) rfl ⟨Nat.le_of_ble_eq_true rfl, Nat.le_of_ble_eq_true rfl⟩ rfl rfl dX7_take_33 (fun s4 hp => ?_)
    have hp := hp.symm
    subst hp
    try dsimp only at h
    refine r_aload_n G 2 rfl rfl dX7_take_36 ?_
    refine r_callVi G [] (qX2_count hE r1 g2 _) ⟨r1, 2, _, _, rfl, (cw_MS ad κ _ g2), rfl⟩ gX7_take_X2_count rfl hdX2_count ⟨Nat.le_of_ble_eq_true rfl, Nat.le_of_ble_eq_true rfl⟩ (Nat.le_of_ble_eq_true rfl) rfl ⟨Nat.le_of_ble_eq_true rfl, Nat.le_of_ble_eq_true rfl⟩ rfl rfl dX7_take_37 (fun r5 s5 hp hn5 => ?_)
    obtain ⟨rfl, hs⟩ := hp
    have hs := hs.symm
    subst hs
    exact hret _ _ _ _ _ _ dX7_take_40 (Option.some.inj h).symm rfl (Nat.le_of_ble_eq_true rfl) (Nat.le_of_ble_eq_true rfl)
  · rw [if_pos c] at h
    exact r_throwN G X9 hT hfl  mX7_take_k100 mX7_take_i3 tX7_take_104 oX7_104 bX7_104 sX7_166 dX7_take_17 dX7_take_20 dX7_take_21 dX7_take_23 dX7_take_26 (Option.some.inj h).symm (Nat.le_of_ble_eq_true rfl) (Nat.le_of_ble_eq_true rfl) (Nat.le_of_ble_eq_true rfl) (Nat.le_of_ble_eq_true rfl)
abbrev rmX7_spread : Room := { frames := 7, cells := 1, slots := 6, locals := 114 }
set_option maxRecDepth 20000 in
theorem kX7_spread_X7 : ∀ w ∈ u_ws RX7 TX7 8, w ∈ wsX7_spread := by decide +kernel
set_option maxRecDepth 20000 in
theorem mX7_spread_f32 : Cond.fieldLink RX7 32 "SetCouncil" "draft" "LSetCouncil$Family;" ∈ wsX7_spread := by decide +kernel
set_option maxRecDepth 20000 in
theorem mX7_spread_f28 : Cond.fieldLink RX7 28 "SetCouncil" "family" "LSetCouncil$Family;" ∈ wsX7_spread := by decide +kernel
theorem hdX0_become : yX0_become.cls = RX0 ∧ yX0_become.cls ≠ "java/lang/invoke/MethodHandle" ∧ yX0_become.cls ≠ "java/lang/invoke/VarHandle" ∧ (parseMethodDescriptor yX0_become.desc).map (fun d => d.parameters.length) = some 1 := by decide +kernel
theorem hdX0_spreadInto : yX0_spreadInto.cls = RX0 ∧ yX0_spreadInto.cls ≠ "java/lang/invoke/MethodHandle" ∧ yX0_spreadInto.cls ≠ "java/lang/invoke/VarHandle" ∧ (parseMethodDescriptor yX0_spreadInto.desc).map (fun d => d.parameters.length) = some 2 := by decide +kernel
set_option maxHeartbeats 4000000 in
set_option maxRecDepth 100000 in
theorem qX7_spread {E : evT} {l : Launch} {D : va_G} {ad : Nat → Nat} {κ : Nat → ClassId} (hE : EvOk E) (hT : TOk E) (hfl : l.stackTraces = false) (p0 : Int32) (s : cS) {o : ((Nat × cS) ⊕ (Int32 × cS))} (h : fX7_spread p0 s = some o) : Xi l yX7_spread wsX7_spread rmX7_spread (cW ad κ) E D (tyA κ) .int [.ref (ad 55), .int p0] s (fun r s2 => o = .inr (r, s2)) (fun e s2 => o = .inl (e, s2)) := by
  rw [fX7_spread] at h
  refine s_xi (cc := cX7_spread) (nL := 3) (own := RX7) hE (cW_WA ad κ) (by decide) rfl rfl (Nat.le_of_ble_eq_true rfl) (fun Γ Qc G X9 hret => ?_)
  refine r_iload_n G 1 rfl rfl dX7_spread_0 ?_
  refine r_iconst G (v := 0) (by decide) dX7_spread_1 ?_
  refine r_iconst G (v := 2) (by decide) dX7_spread_2 ?_
  obtain ⟨o1, e1, h⟩ := ob h
  refine r_callSvx G [.int p0, .int 0, .int 2] (qX7_checkRange hE hT hfl p0 (0 : Int32) (2 : Int32) _ e1) gX7_spread_X7_checkRange rfl hdX7_checkRange ⟨Nat.le_of_ble_eq_true rfl, Nat.le_of_ble_eq_true rfl⟩ (Nat.le_of_ble_eq_true rfl) rfl ⟨Nat.le_of_ble_eq_true rfl, Nat.le_of_ble_eq_true rfl⟩ rfl rfl dX7_spread_3 (fun k9 st9 hp9 => by subst hp9; exact r_out G X9 (fun _ hx => nomatch hx) (Option.some.inj h).symm (Nat.le_of_ble_eq_true rfl) (Nat.le_of_ble_eq_true rfl)) (fun s1 hp => ?_)
  have hp := hp.symm
  subst hp
  try dsimp only [Sum.elim_inr] at h
  refine r_aload_n G 0 rfl rfl dX7_spread_6 ?_
  refine r_get G (C := RX7) (T := TX7) (N := 8) kX7_spread_X7 55 (cw_SC ad κ _) rfl 3 (by decide) mX7_spread_f32 rfl rfl dX7_spread_7 ?_
  refine r_aload_n G 0 rfl rfl dX7_spread_10 ?_
  refine r_get G (C := RX7) (T := TX7) (N := 8) kX7_spread_X7 55 (cw_SC ad κ _) rfl 2 (by decide) mX7_spread_f28 rfl rfl dX7_spread_11 ?_
  obtain ⟨o2, e2, h⟩ := ob h
  refine r_callVv G [.ref (ad (66 + 0))] (qX0_become hE 1 (by decide) 0 (by decide) _ e2) ⟨(66 + 1), 0, _, _, rfl, (cw_FAM ad κ _ (by decide)), rfl⟩ gX7_spread_X0_become rfl hdX0_become ⟨Nat.le_of_ble_eq_true rfl, Nat.le_of_ble_eq_true rfl⟩ (Nat.le_of_ble_eq_true rfl) rfl ⟨Nat.le_of_ble_eq_true rfl, Nat.le_of_ble_eq_true rfl⟩ rfl rfl dX7_spread_14 (fun s2 hp => ?_)
  have hp := hp.symm
  subst hp
  try dsimp only at h
  refine r_aload_n G 0 rfl rfl dX7_spread_17 ?_
  refine r_get G (C := RX7) (T := TX7) (N := 8) kX7_spread_X7 55 (cw_SC ad κ _) rfl 2 (by decide) mX7_spread_f28 rfl rfl dX7_spread_18 ?_
  refine r_aload_n G 0 rfl rfl dX7_spread_21 ?_
  refine r_get G (C := RX7) (T := TX7) (N := 8) kX7_spread_X7 55 (cw_SC ad κ _) rfl 3 (by decide) mX7_spread_f32 rfl rfl dX7_spread_22 ?_
  refine r_iload_n G 1 rfl rfl dX7_spread_25 ?_
  obtain ⟨o3, e3, h⟩ := ob h
  refine r_callVi G [.ref (ad (66 + 1)), .int p0] (qX0_spreadInto hE 0 (by decide) 1 (by decide) p0 _ e3) ⟨(66 + 0), 0, _, _, rfl, (cw_FAM ad κ _ (by decide)), rfl⟩ gX7_spread_X0_spreadInto rfl hdX0_spreadInto ⟨Nat.le_of_ble_eq_true rfl, Nat.le_of_ble_eq_true rfl⟩ (Nat.le_of_ble_eq_true rfl) rfl ⟨Nat.le_of_ble_eq_true rfl, Nat.le_of_ble_eq_true rfl⟩ rfl rfl dX7_spread_26 (fun r3 s3 hp hn3 => ?_)
  subst hp
  try dsimp only at h
  refine r_if_ne G (tgt := 34) dX7_spread_29 (by decide) (fun c => ?_) (fun c => ?_)
  · rw [if_neg c] at h
    refine r_aload_n G 0 rfl rfl dX7_spread_34 ?_
    refine r_get G (C := RX7) (T := TX7) (N := 8) kX7_spread_X7 55 (cw_SC ad κ _) rfl 3 (by decide) mX7_spread_f32 rfl rfl dX7_spread_35 ?_
    refine r_callVi G [] (qX0_count hE 1 (by decide) _) ⟨(66 + 1), 0, _, _, rfl, (cw_FAM ad κ _ (by decide)), rfl⟩ gX7_spread_X0_count rfl hdX0_count ⟨Nat.le_of_ble_eq_true rfl, Nat.le_of_ble_eq_true rfl⟩ (Nat.le_of_ble_eq_true rfl) rfl ⟨Nat.le_of_ble_eq_true rfl, Nat.le_of_ble_eq_true rfl⟩ rfl rfl dX7_spread_38 (fun r4 s4 hp hn4 => ?_)
    obtain ⟨rfl, hs⟩ := hp
    have hs := hs.symm
    subst hs
    refine r_aload_n G 0 rfl rfl dX7_spread_41 ?_
    refine r_get G (C := RX7) (T := TX7) (N := 8) kX7_spread_X7 55 (cw_SC ad κ _) rfl 2 (by decide) mX7_spread_f28 rfl rfl dX7_spread_42 ?_
    refine r_callVi G [] (qX0_count hE 0 (by decide) _) ⟨(66 + 0), 0, _, _, rfl, (cw_FAM ad κ _ (by decide)), rfl⟩ gX7_spread_X0_count rfl hdX0_count ⟨Nat.le_of_ble_eq_true rfl, Nat.le_of_ble_eq_true rfl⟩ (Nat.le_of_ble_eq_true rfl) rfl ⟨Nat.le_of_ble_eq_true rfl, Nat.le_of_ble_eq_true rfl⟩ rfl rfl dX7_spread_45 (fun r5 s5 hp hn5 => ?_)
    obtain ⟨rfl, hs⟩ := hp
    have hs := hs.symm
    subst hs
    refine r_isub G dX7_spread_48 ?_
    refine r_istore_n G [1, 0] rfl rfl (by decide) dX7_spread_49 ?_
    refine r_aload_n G 0 rfl rfl dX7_spread_50 ?_
    refine r_get G (C := RX7) (T := TX7) (N := 8) kX7_spread_X7 55 (cw_SC ad κ _) rfl 2 (by decide) mX7_spread_f28 rfl rfl dX7_spread_51 ?_
    refine r_aload_n G 0 rfl rfl dX7_spread_54 ?_
    refine r_get G (C := RX7) (T := TX7) (N := 8) kX7_spread_X7 55 (cw_SC ad κ _) rfl 3 (by decide) mX7_spread_f32 rfl rfl dX7_spread_55 ?_
    obtain ⟨o6, e6, h⟩ := ob h
    refine r_callVv G [.ref (ad (66 + 1))] (qX0_become hE 0 (by decide) 1 (by decide) _ e6) ⟨(66 + 0), 0, _, _, rfl, (cw_FAM ad κ _ (by decide)), rfl⟩ gX7_spread_X0_become rfl hdX0_become ⟨Nat.le_of_ble_eq_true rfl, Nat.le_of_ble_eq_true rfl⟩ (Nat.le_of_ble_eq_true rfl) rfl ⟨Nat.le_of_ble_eq_true rfl, Nat.le_of_ble_eq_true rfl⟩ rfl rfl dX7_spread_58 (fun s6 hp => ?_)
    have hp := hp.symm
    subst hp
    try dsimp only at h
    refine r_iload_n G 1 rfl rfl dX7_spread_61 ?_
    exact hret _ _ _ _ _ _ dX7_spread_62 (Option.some.inj h).symm rfl (Nat.le_of_ble_eq_true rfl) (Nat.le_of_ble_eq_true rfl)
  · rw [if_pos c] at h
    refine r_iconst G (v := (-1)) (by decide) dX7_spread_32 ?_
    exact hret _ _ _ _ _ _ dX7_spread_33 (Option.some.inj h).symm rfl (Nat.le_of_ble_eq_true rfl) (Nat.le_of_ble_eq_true rfl)
abbrev rmX7_isClosed : Room := { frames := 7, cells := 1, slots := 6, locals := 114 }
set_option maxRecDepth 20000 in
theorem kX7_isClosed_X7 : ∀ w ∈ u_ws RX7 TX7 8, w ∈ wsX7_isClosed := by decide +kernel
set_option maxRecDepth 20000 in
theorem mX7_isClosed_f28 : Cond.fieldLink RX7 28 "SetCouncil" "family" "LSetCouncil$Family;" ∈ wsX7_isClosed := by decide +kernel
theorem hdX0_closedUnder : yX0_closedUnder.cls = RX0 ∧ yX0_closedUnder.cls ≠ "java/lang/invoke/MethodHandle" ∧ yX0_closedUnder.cls ≠ "java/lang/invoke/VarHandle" ∧ (parseMethodDescriptor yX0_closedUnder.desc).map (fun d => d.parameters.length) = some 1 := by decide +kernel
set_option maxHeartbeats 4000000 in
set_option maxRecDepth 100000 in
theorem qX7_isClosed {E : evT} {l : Launch} {D : va_G} {ad : Nat → Nat} {κ : Nat → ClassId} (hE : EvOk E) (hT : TOk E) (hfl : l.stackTraces = false) (p0 : Int32) (s : cS) {o : ((Nat × cS) ⊕ (Int32 × cS))} (h : fX7_isClosed p0 s = some o) : Xi l yX7_isClosed wsX7_isClosed rmX7_isClosed (cW ad κ) E D (tyA κ) .boolean [.ref (ad 55), .int p0] s (fun r s2 => o = .inr (r, s2)) (fun e s2 => o = .inl (e, s2)) := by
  rw [fX7_isClosed] at h
  refine s_xi (cc := cX7_isClosed) (nL := 2) (own := RX7) hE (cW_WA ad κ) (by decide) rfl rfl (Nat.le_of_ble_eq_true rfl) (fun Γ Qc G X9 hret => ?_)
  refine r_iload_n G 1 rfl rfl dX7_isClosed_0 ?_
  refine r_iconst G (v := 0) (by decide) dX7_isClosed_1 ?_
  refine r_iconst G (v := 2) (by decide) dX7_isClosed_2 ?_
  obtain ⟨o1, e1, h⟩ := ob h
  refine r_callSvx G [.int p0, .int 0, .int 2] (qX7_checkRange hE hT hfl p0 (0 : Int32) (2 : Int32) _ e1) gX7_isClosed_X7_checkRange rfl hdX7_checkRange ⟨Nat.le_of_ble_eq_true rfl, Nat.le_of_ble_eq_true rfl⟩ (Nat.le_of_ble_eq_true rfl) rfl ⟨Nat.le_of_ble_eq_true rfl, Nat.le_of_ble_eq_true rfl⟩ rfl rfl dX7_isClosed_3 (fun k9 st9 hp9 => by subst hp9; exact r_out G X9 (fun _ hx => nomatch hx) (Option.some.inj h).symm (Nat.le_of_ble_eq_true rfl) (Nat.le_of_ble_eq_true rfl)) (fun s1 hp => ?_)
  have hp := hp.symm
  subst hp
  try dsimp only [Sum.elim_inr] at h
  refine r_aload_n G 0 rfl rfl dX7_isClosed_6 ?_
  refine r_get G (C := RX7) (T := TX7) (N := 8) kX7_isClosed_X7 55 (cw_SC ad κ _) rfl 2 (by decide) mX7_isClosed_f28 rfl rfl dX7_isClosed_7 ?_
  refine r_iload_n G 1 rfl rfl dX7_isClosed_10 ?_
  obtain ⟨o2, e2, h⟩ := ob h
  refine r_callVi G [.int p0] (qX0_closedUnder hE 0 (by decide) p0 _ e2) ⟨(66 + 0), 0, _, _, rfl, (cw_FAM ad κ _ (by decide)), rfl⟩ gX7_isClosed_X0_closedUnder rfl hdX0_closedUnder ⟨Nat.le_of_ble_eq_true rfl, Nat.le_of_ble_eq_true rfl⟩ (Nat.le_of_ble_eq_true rfl) rfl ⟨Nat.le_of_ble_eq_true rfl, Nat.le_of_ble_eq_true rfl⟩ rfl rfl dX7_isClosed_11 (fun r2 s2 hp hn2 => ?_)
  subst hp
  try dsimp only at h
  exact hret _ _ _ _ _ _ dX7_isClosed_14 (Option.some.inj h).symm hn2 (Nat.le_of_ble_eq_true rfl) (Nat.le_of_ble_eq_true rfl)
abbrev rmX7_isChain : Room := { frames := 2, cells := 0, slots := 0, locals := 43 }
set_option maxRecDepth 20000 in
theorem kX7_isChain_X7 : ∀ w ∈ u_ws RX7 TX7 8, w ∈ wsX7_isChain := by decide +kernel
set_option maxRecDepth 20000 in
theorem mX7_isChain_f28 : Cond.fieldLink RX7 28 "SetCouncil" "family" "LSetCouncil$Family;" ∈ wsX7_isChain := by decide +kernel
theorem hdX0_allNested : yX0_allNested.cls = RX0 ∧ yX0_allNested.cls ≠ "java/lang/invoke/MethodHandle" ∧ yX0_allNested.cls ≠ "java/lang/invoke/VarHandle" ∧ (parseMethodDescriptor yX0_allNested.desc).map (fun d => d.parameters.length) = some 0 := by decide +kernel
set_option maxHeartbeats 4000000 in
set_option maxRecDepth 100000 in
theorem qX7_isChain {E : evT} {l : Launch} {D : va_G} {ad : Nat → Nat} {κ : Nat → ClassId} (hE : EvOk E) (s : cS) {o : (Int32 × cS)} (h : fX7_isChain s = some o) : Ci l yX7_isChain wsX7_isChain rmX7_isChain (cW ad κ) E D (tyA κ) .boolean [.ref (ad 55)] s (fun r s2 => o = (r, s2)) := by
  rw [fX7_isChain] at h
  refine s_i (cc := cX7_isChain) (nL := 1) (own := RX7) hE (cW_WA ad κ) (plainFor_of_name (by decide)) rfl rfl (Nat.le_of_ble_eq_true rfl) (fun Γ G hret => ?_)
  refine r_aload_n G 0 rfl rfl dX7_isChain_0 ?_
  refine r_get G (C := RX7) (T := TX7) (N := 8) kX7_isChain_X7 55 (cw_SC ad κ _) rfl 2 (by decide) mX7_isChain_f28 rfl rfl dX7_isChain_1 ?_
  obtain ⟨o1, e1, h⟩ := ob h
  refine r_callVi G [] (qX0_allNested hE 0 (by decide) _ e1) ⟨(66 + 0), 0, _, _, rfl, (cw_FAM ad κ _ (by decide)), rfl⟩ gX7_isChain_X0_allNested rfl hdX0_allNested ⟨Nat.le_of_ble_eq_true rfl, Nat.le_of_ble_eq_true rfl⟩ (Nat.le_of_ble_eq_true rfl) rfl ⟨Nat.le_of_ble_eq_true rfl, Nat.le_of_ble_eq_true rfl⟩ rfl rfl dX7_isChain_4 (fun r1 s1 hp hn1 => ?_)
  subst hp
  try dsimp only at h
  exact hret _ _ _ _ _ _ dX7_isChain_7 (Option.some.inj h).symm hn1 (Nat.le_of_ble_eq_true rfl) (Nat.le_of_ble_eq_true rfl)
abbrev rmX7_primes : Room := { frames := 3, cells := 0, slots := 0, locals := 72 }
set_option maxRecDepth 20000 in
theorem kX7_primes_X7 : ∀ w ∈ u_ws RX7 TX7 8, w ∈ wsX7_primes := by decide +kernel
set_option maxRecDepth 20000 in
theorem mX7_primes_f28 : Cond.fieldLink RX7 28 "SetCouncil" "family" "LSetCouncil$Family;" ∈ wsX7_primes := by decide +kernel
theorem hdJ6_bitCount_0f7a4 : yJ6_bitCount_0f7a4.cls ≠ "java/lang/invoke/MethodHandle" ∧ yJ6_bitCount_0f7a4.cls ≠ "java/lang/invoke/VarHandle" ∧ (parseMethodDescriptor yJ6_bitCount_0f7a4.desc).map (fun d => d.parameters.length) = some 1 := by decide +kernel
set_option maxHeartbeats 4000000 in
set_option maxRecDepth 100000 in
theorem qX7_primes {E : evT} {l : Launch} {D : va_G} {ad : Nat → Nat} {κ : Nat → ClassId} (hE : EvOk E) (s : cS) {o : (Int32 × cS)} (h : fX7_primes s = some o) : Ci l yX7_primes wsX7_primes rmX7_primes (cW ad κ) E D (tyA κ) .int [.ref (ad 55)] s (fun r s2 => o = (r, s2)) := by
  rw [fX7_primes] at h
  refine s_i (cc := cX7_primes) (nL := 1) (own := RX7) hE (cW_WA ad κ) (plainFor_of_name (by decide)) rfl rfl (Nat.le_of_ble_eq_true rfl) (fun Γ G hret => ?_)
  refine r_aload_n G 0 rfl rfl dX7_primes_0 ?_
  refine r_get G (C := RX7) (T := TX7) (N := 8) kX7_primes_X7 55 (cw_SC ad κ _) rfl 2 (by decide) mX7_primes_f28 rfl rfl dX7_primes_1 ?_
  obtain ⟨o1, e1, h⟩ := ob h
  refine r_callVi G [] (qX0_primePlaces hE 0 (by decide) _ e1) ⟨(66 + 0), 0, _, _, rfl, (cw_FAM ad κ _ (by decide)), rfl⟩ gX7_primes_X0_primePlaces rfl hdX0_primePlaces ⟨Nat.le_of_ble_eq_true rfl, Nat.le_of_ble_eq_true rfl⟩ (Nat.le_of_ble_eq_true rfl) rfl ⟨Nat.le_of_ble_eq_true rfl, Nat.le_of_ble_eq_true rfl⟩ rfl rfl dX7_primes_4 (fun r1 s1 hp hn1 => ?_)
  subst hp
  try dsimp only at h
  refine r_callSi G [.int r1] (qJ6_bitCount_0f7a4 hE r1 _) gX7_primes_J6_bitCount_0f7a4 rfl hdJ6_bitCount_0f7a4 ⟨Nat.le_of_ble_eq_true rfl, Nat.le_of_ble_eq_true rfl⟩ (Nat.le_of_ble_eq_true rfl) rfl ⟨Nat.le_of_ble_eq_true rfl, Nat.le_of_ble_eq_true rfl⟩ rfl rfl dX7_primes_7 (fun r2 s2 hp hn2 => ?_)
  obtain ⟨rfl, hs⟩ := hp
  have hs := hs.symm
  subst hs
  exact hret _ _ _ _ _ _ dX7_primes_10 (Option.some.inj h).symm rfl (Nat.le_of_ble_eq_true rfl) (Nat.le_of_ble_eq_true rfl)
abbrev rmX7_primesWithin : Room := { frames := 7, cells := 1, slots := 6, locals := 113 }
set_option maxRecDepth 20000 in
theorem kX7_primesWithin_X7 : ∀ w ∈ u_ws RX7 TX7 8, w ∈ wsX7_primesWithin := by decide +kernel
set_option maxRecDepth 20000 in
theorem mX7_primesWithin_f28 : Cond.fieldLink RX7 28 "SetCouncil" "family" "LSetCouncil$Family;" ∈ wsX7_primesWithin := by decide +kernel
set_option maxHeartbeats 4000000 in
set_option maxRecDepth 100000 in
theorem qX7_primesWithin {E : evT} {l : Launch} {D : va_G} {ad : Nat → Nat} {κ : Nat → ClassId} (hE : EvOk E) (hT : TOk E) (hfl : l.stackTraces = false) (p0 : Int32) (s : cS) {o : ((Nat × cS) ⊕ (Int32 × cS))} (h : fX7_primesWithin p0 s = some o) : Xi l yX7_primesWithin wsX7_primesWithin rmX7_primesWithin (cW ad κ) E D (tyA κ) .int [.ref (ad 55), .int p0] s (fun r s2 => o = .inr (r, s2)) (fun e s2 => o = .inl (e, s2)) := by
  rw [fX7_primesWithin] at h
  refine s_xi (cc := cX7_primesWithin) (nL := 3) (own := RX7) hE (cW_WA ad κ) (by decide) rfl rfl (Nat.le_of_ble_eq_true rfl) (fun Γ Qc G X9 hret => ?_)
  refine r_aload_n G 0 rfl rfl dX7_primesWithin_0 ?_
  refine r_iload_n G 1 rfl rfl dX7_primesWithin_1 ?_
  obtain ⟨o1, e1, h⟩ := ob h
  refine r_callVrx G [.int p0] (qX7_setAt hE hT hfl p0 _ e1) ⟨55, 7, _, _, rfl, (cw_SC ad κ _), rfl⟩ gX7_primesWithin_X7_setAt rfl hdX7_setAt ⟨Nat.le_of_ble_eq_true rfl, Nat.le_of_ble_eq_true rfl⟩ (Nat.le_of_ble_eq_true rfl) rfl ⟨Nat.le_of_ble_eq_true rfl, Nat.le_of_ble_eq_true rfl⟩ rfl rfl dX7_primesWithin_2 (fun k9 st9 hp9 => by subst hp9; exact r_out G X9 (fun _ hx => nomatch hx) (Option.some.inj h).symm (Nat.le_of_ble_eq_true rfl) (Nat.le_of_ble_eq_true rfl)) (fun r1 s1 hp => ?_)
  subst hp
  try dsimp only [Sum.elim_inr] at h
  obtain ⟨g2, h⟩ := og h
  refine r_astore_n G [1, 0] rfl rfl (by decide) dX7_primesWithin_5 ?_
  refine r_aload_n G 0 rfl rfl dX7_primesWithin_6 ?_
  refine r_get G (C := RX7) (T := TX7) (N := 8) kX7_primesWithin_X7 55 (cw_SC ad κ _) rfl 2 (by decide) mX7_primesWithin_f28 rfl rfl dX7_primesWithin_7 ?_
  refine r_aload_n G 0 rfl rfl dX7_primesWithin_10 ?_
  refine r_get G (C := RX7) (T := TX7) (N := 8) kX7_primesWithin_X7 55 (cw_SC ad κ _) rfl 2 (by decide) mX7_primesWithin_f28 rfl rfl dX7_primesWithin_11 ?_
  obtain ⟨o3, e3, h⟩ := ob h
  refine r_callVi G [] (qX0_primePlaces hE 0 (by decide) _ e3) ⟨(66 + 0), 0, _, _, rfl, (cw_FAM ad κ _ (by decide)), rfl⟩ gX7_primesWithin_X0_primePlaces rfl hdX0_primePlaces ⟨Nat.le_of_ble_eq_true rfl, Nat.le_of_ble_eq_true rfl⟩ (Nat.le_of_ble_eq_true rfl) rfl ⟨Nat.le_of_ble_eq_true rfl, Nat.le_of_ble_eq_true rfl⟩ rfl rfl dX7_primesWithin_14 (fun r3 s3 hp hn3 => ?_)
  subst hp
  try dsimp only at h
  refine r_aload_n G 1 rfl rfl dX7_primesWithin_17 ?_
  obtain ⟨o4, e4, h⟩ := ob h
  refine r_callVi G [.int r3, .ref (ad r1)] (qX0_placesWithin hE 0 (by decide) r3 r1 g2 _ e4) ⟨(66 + 0), 0, _, _, rfl, (cw_FAM ad κ _ (by decide)), rfl⟩ gX7_primesWithin_X0_placesWithin rfl hdX0_placesWithin ⟨Nat.le_of_ble_eq_true rfl, Nat.le_of_ble_eq_true rfl⟩ (Nat.le_of_ble_eq_true rfl) rfl ⟨Nat.le_of_ble_eq_true rfl, Nat.le_of_ble_eq_true rfl⟩ rfl rfl dX7_primesWithin_18 (fun r4 s4 hp hn4 => ?_)
  subst hp
  try dsimp only at h
  refine r_callSi G [.int r4] (qJ6_bitCount_0f7a4 hE r4 _) gX7_primesWithin_J6_bitCount_0f7a4 rfl hdJ6_bitCount_0f7a4 ⟨Nat.le_of_ble_eq_true rfl, Nat.le_of_ble_eq_true rfl⟩ (Nat.le_of_ble_eq_true rfl) rfl ⟨Nat.le_of_ble_eq_true rfl, Nat.le_of_ble_eq_true rfl⟩ rfl rfl dX7_primesWithin_21 (fun r5 s5 hp hn5 => ?_)
  obtain ⟨rfl, hs⟩ := hp
  have hs := hs.symm
  subst hs
  exact hret _ _ _ _ _ _ dX7_primesWithin_24 (Option.some.inj h).symm rfl (Nat.le_of_ble_eq_true rfl) (Nat.le_of_ble_eq_true rfl)
abbrev rmX7_type : Room := { frames := 6, cells := 1, slots := 6, locals := 92 }
set_option maxRecDepth 20000 in
theorem kX7_type_X7 : ∀ w ∈ u_ws RX7 TX7 8, w ∈ wsX7_type := by decide +kernel
set_option maxRecDepth 20000 in
theorem mX7_type_f42 : Cond.fieldLink RX7 42 "SetCouncil" "text" "LSetCouncil$Text;" ∈ wsX7_type := by decide +kernel
theorem hdX4_append : yX4_append.cls = RX4 ∧ yX4_append.cls ≠ "java/lang/invoke/MethodHandle" ∧ yX4_append.cls ≠ "java/lang/invoke/VarHandle" ∧ (parseMethodDescriptor yX4_append.desc).map (fun d => d.parameters.length) = some 1 := by decide +kernel
set_option maxRecDepth 20000 in
theorem mX7_type_k152 : Cond.classLink RX7 152 "java/lang/IllegalStateException" ∈ wsX7_type := by decide +kernel
set_option maxRecDepth 20000 in
theorem mX7_type_i4 : Cond.initialized "java/lang/IllegalStateException" ∈ wsX7_type := by decide +kernel
set_option maxRecDepth 20000 in
theorem tX7_type_156 : ∀ w ∈ (vx_atS RX7 156 "java/lang/IllegalStateException" ["java/lang/RuntimeException", "java/lang/Exception"]).filter goodWord, w ∈ wsX7_type := by decide +kernel
theorem sX7_202 : (RX7, 202, "the text would be too long") ∈ thS := by decide +kernel
set_option maxHeartbeats 4000000 in
set_option maxRecDepth 100000 in
theorem qX7_type {E : evT} {l : Launch} {D : va_G} {ad : Nat → Nat} {κ : Nat → ClassId} (hE : EvOk E) (hT : TOk E) (hfl : l.stackTraces = false) (p0 : Int64) (s : cS) {o : ((Nat × cS) ⊕ (Int32 × cS))} (h : fX7_type p0 s = some o) : Xi l yX7_type wsX7_type rmX7_type (cW ad κ) E D (tyA κ) .int [.ref (ad 55), .long p0] s (fun r s2 => o = .inr (r, s2)) (fun e s2 => o = .inl (e, s2)) := by
  rw [fX7_type] at h
  refine s_xi (cc := cX7_type) (nL := 3) (own := RX7) hE (cW_WA ad κ) (by decide) rfl rfl (Nat.le_of_ble_eq_true rfl) (fun Γ Qc G X9 hret => ?_)
  refine r_aload_n G 0 rfl rfl dX7_type_0 ?_
  refine r_get G (C := RX7) (T := TX7) (N := 8) kX7_type_X7 55 (cw_SC ad κ _) rfl 5 (by decide) mX7_type_f42 rfl rfl dX7_type_1 ?_
  refine r_lload_n G 1 rfl rfl dX7_type_4 ?_
  obtain ⟨o1, e1, h⟩ := ob h
  refine r_callVi G [.long p0] (qX4_append hE p0 _ e1) ⟨70, 4, _, _, rfl, (cw_TEXT ad κ _), rfl⟩ gX7_type_X4_append rfl hdX4_append ⟨Nat.le_of_ble_eq_true rfl, Nat.le_of_ble_eq_true rfl⟩ (Nat.le_of_ble_eq_true rfl) rfl ⟨Nat.le_of_ble_eq_true rfl, Nat.le_of_ble_eq_true rfl⟩ rfl rfl dX7_type_5 (fun r1 s1 hp hn1 => ?_)
  subst hp
  try dsimp only at h
  refine r_if_ne G (tgt := 21) dX7_type_8 (by decide) (fun c => ?_) (fun c => ?_)
  · rw [if_neg c] at h
    refine r_aload_n G 0 rfl rfl dX7_type_21 ?_
    refine r_get G (C := RX7) (T := TX7) (N := 8) kX7_type_X7 55 (cw_SC ad κ _) rfl 5 (by decide) mX7_type_f42 rfl rfl dX7_type_22 ?_
    refine r_callVi G [] (qX4_length hE _) ⟨70, 4, _, _, rfl, (cw_TEXT ad κ _), rfl⟩ gX7_type_X4_length rfl hdX4_length ⟨Nat.le_of_ble_eq_true rfl, Nat.le_of_ble_eq_true rfl⟩ (Nat.le_of_ble_eq_true rfl) rfl ⟨Nat.le_of_ble_eq_true rfl, Nat.le_of_ble_eq_true rfl⟩ rfl rfl dX7_type_25 (fun r2 s2 hp hn2 => ?_)
    obtain ⟨rfl, hs⟩ := hp
    have hs := hs.symm
    subst hs
    exact hret _ _ _ _ _ _ dX7_type_28 (Option.some.inj h).symm rfl (Nat.le_of_ble_eq_true rfl) (Nat.le_of_ble_eq_true rfl)
  · rw [if_pos c] at h
    exact r_throw G X9 hT hfl (k := 4) (by decide) mX7_type_k152 mX7_type_i4 tX7_type_156 oX7_156 bX7_156 sX7_202 dX7_type_11 dX7_type_14 dX7_type_15 dX7_type_17 dX7_type_20 (Option.some.inj h).symm (Nat.le_of_ble_eq_true rfl) (Nat.le_of_ble_eq_true rfl) (Nat.le_of_ble_eq_true rfl) (Nat.le_of_ble_eq_true rfl)
abbrev rmX7_clearText : Room := { frames := 1, cells := 0, slots := 0, locals := 20 }
set_option maxRecDepth 20000 in
theorem kX7_clearText_X7 : ∀ w ∈ u_ws RX7 TX7 8, w ∈ wsX7_clearText := by decide +kernel
set_option maxRecDepth 20000 in
theorem mX7_clearText_f42 : Cond.fieldLink RX7 42 "SetCouncil" "text" "LSetCouncil$Text;" ∈ wsX7_clearText := by decide +kernel
theorem hdX4_empty : yX4_empty.cls = RX4 ∧ yX4_empty.cls ≠ "java/lang/invoke/MethodHandle" ∧ yX4_empty.cls ≠ "java/lang/invoke/VarHandle" ∧ (parseMethodDescriptor yX4_empty.desc).map (fun d => d.parameters.length) = some 0 := by decide +kernel
set_option maxHeartbeats 4000000 in
set_option maxRecDepth 100000 in
theorem qX7_clearText {E : evT} {l : Launch} {D : va_G} {ad : Nat → Nat} {κ : Nat → ClassId} (hE : EvOk E) (s : cS) {o : (Int32 × cS)} (h : fX7_clearText s = some o) : Ci l yX7_clearText wsX7_clearText rmX7_clearText (cW ad κ) E D (tyA κ) .int [.ref (ad 55)] s (fun r s2 => o = (r, s2)) := by
  rw [fX7_clearText] at h
  refine s_i (cc := cX7_clearText) (nL := 2) (own := RX7) hE (cW_WA ad κ) (plainFor_of_name (by decide)) rfl rfl (Nat.le_of_ble_eq_true rfl) (fun Γ G hret => ?_)
  refine r_aload_n G 0 rfl rfl dX7_clearText_0 ?_
  refine r_get G (C := RX7) (T := TX7) (N := 8) kX7_clearText_X7 55 (cw_SC ad κ _) rfl 5 (by decide) mX7_clearText_f42 rfl rfl dX7_clearText_1 ?_
  refine r_callVi G [] (qX4_length hE _) ⟨70, 4, _, _, rfl, (cw_TEXT ad κ _), rfl⟩ gX7_clearText_X4_length rfl hdX4_length ⟨Nat.le_of_ble_eq_true rfl, Nat.le_of_ble_eq_true rfl⟩ (Nat.le_of_ble_eq_true rfl) rfl ⟨Nat.le_of_ble_eq_true rfl, Nat.le_of_ble_eq_true rfl⟩ rfl rfl dX7_clearText_4 (fun r1 s1 hp hn1 => ?_)
  obtain ⟨rfl, hs⟩ := hp
  have hs := hs.symm
  subst hs
  refine r_istore_n G [1, 0] rfl rfl (by decide) dX7_clearText_7 ?_
  refine r_aload_n G 0 rfl rfl dX7_clearText_8 ?_
  refine r_get G (C := RX7) (T := TX7) (N := 8) kX7_clearText_X7 55 (cw_SC ad κ _) rfl 5 (by decide) mX7_clearText_f42 rfl rfl dX7_clearText_9 ?_
  obtain ⟨o2, e2, h⟩ := ob h
  refine r_callVv G [] (qX4_empty hE _ e2) ⟨70, 4, _, _, rfl, (cw_TEXT ad κ _), rfl⟩ gX7_clearText_X4_empty rfl hdX4_empty ⟨Nat.le_of_ble_eq_true rfl, Nat.le_of_ble_eq_true rfl⟩ (Nat.le_of_ble_eq_true rfl) rfl ⟨Nat.le_of_ble_eq_true rfl, Nat.le_of_ble_eq_true rfl⟩ rfl rfl dX7_clearText_12 (fun s2 hp => ?_)
  have hp := hp.symm
  subst hp
  try dsimp only at h
  refine r_iload_n G 1 rfl rfl dX7_clearText_15 ?_
  exact hret _ _ _ _ _ _ dX7_clearText_16 (Option.some.inj h).symm rfl (Nat.le_of_ble_eq_true rfl) (Nat.le_of_ble_eq_true rfl)
