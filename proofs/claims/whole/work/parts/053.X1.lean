abbrev rmX1_make : Room := { frames := 1, cells := 0, slots := 0, locals := 26 }
set_option maxHeartbeats 4000000 in
set_option maxRecDepth 100000 in
theorem qX1_make {E : evT} {l : Launch} {D : va_G} {ad : Nat → Nat} {κ : Nat → ClassId} (hE : EvOk E) (p0 : Nat) (hp0 : p0 < 55) (p1 : Int32) (p2 : Nat) (hp2 : p2 < 55) (p3 : Nat) (hp3 : p3 < 55) (s : cS) {o : (cS)} (h : fX1_make p0 p1 p2 p3 s = some o) : Cv l yX1_make wsX1_make rmX1_make (cW ad κ) E D (tyA κ)  [.ref (ad p0), .int p1, .ref (ad p2), .ref (ad p3)] s (fun s2 => o = s2) := by
  rw [fX1_make] at h
  refine s_v (cc := cX1_make) (nL := 4) (own := RX1) hE (cW_WA ad κ) (by decide) rfl rfl (Nat.le_of_ble_eq_true rfl) (fun Γ G hret => ?_)
  refine r_aload_n G 0 rfl rfl dX1_make_0 ?_
  refine r_aload_n G 2 rfl rfl dX1_make_1 ?_
  obtain ⟨o1, e1, h⟩ := ob h
  refine r_callVv G [.ref (ad p2)] (qX2_become hE p0 hp0 p2 hp2 _ e1) ⟨p0, 2, _, _, rfl, (cw_MS ad κ _ hp0), rfl⟩ gX1_make_X2_become rfl hdX2_become ⟨Nat.le_of_ble_eq_true rfl, Nat.le_of_ble_eq_true rfl⟩ (Nat.le_of_ble_eq_true rfl) rfl ⟨Nat.le_of_ble_eq_true rfl, Nat.le_of_ble_eq_true rfl⟩ rfl rfl dX1_make_2 (fun s1 hp => ?_)
  have hp := hp.symm
  subst hp
  try dsimp only at h
  refine r_aload_n G 0 rfl rfl dX1_make_5 ?_
  refine r_iload_n G 1 rfl rfl dX1_make_6 ?_
  refine r_aload_n G 3 rfl rfl dX1_make_7 ?_
  obtain ⟨o2, e2, h⟩ := ob h
  refine r_callVi G [.int p1, .ref (ad p3)] (qX2_combine hE p0 hp0 p1 p3 hp3 _ e2) ⟨p0, 2, _, _, rfl, (cw_MS ad κ _ hp0), rfl⟩ gX1_make_X2_combine rfl hdX2_combine ⟨Nat.le_of_ble_eq_true rfl, Nat.le_of_ble_eq_true rfl⟩ (Nat.le_of_ble_eq_true rfl) rfl ⟨Nat.le_of_ble_eq_true rfl, Nat.le_of_ble_eq_true rfl⟩ rfl rfl dX1_make_8 (fun r2 s2 hp hn2 => ?_)
  subst hp
  try dsimp only at h
  refine r_pop G rfl dX1_make_11 ?_
  exact hret _ _ _ _ _ dX1_make_12 (Option.some.inj h).symm (Nat.le_of_ble_eq_true rfl) (Nat.le_of_ble_eq_true rfl)
abbrev rmX1_sidesDiffer : Room := { frames := 1, cells := 0, slots := 0, locals := 21 }
set_option maxRecDepth 20000 in
theorem kX1_sidesDiffer_X1 : ∀ w ∈ u_ws RX1 TX1 3, w ∈ wsX1_sidesDiffer := by decide +kernel
set_option maxRecDepth 20000 in
theorem mX1_sidesDiffer_f12 : Cond.fieldLink RX1 12 "SetCouncil$Laws" "left" "LSetCouncil$MemberSet;" ∈ wsX1_sidesDiffer := by decide +kernel
set_option maxRecDepth 20000 in
theorem mX1_sidesDiffer_f18 : Cond.fieldLink RX1 18 "SetCouncil$Laws" "right" "LSetCouncil$MemberSet;" ∈ wsX1_sidesDiffer := by decide +kernel
set_option maxHeartbeats 4000000 in
set_option maxRecDepth 100000 in
theorem qX1_sidesDiffer {E : evT} {l : Launch} {D : va_G} {ad : Nat → Nat} {κ : Nat → ClassId} (hE : EvOk E) (s : cS) : Ci l yX1_sidesDiffer wsX1_sidesDiffer rmX1_sidesDiffer (cW ad κ) E D (tyA κ) .int [.ref (ad 78)] s (fun r s2 => r = fX1_sidesDiffer s ∧ s2 = s) := by
  obtain ⟨o, h⟩ : ∃ o, fX1_sidesDiffer s = o := ⟨_, rfl⟩
  rw [h]
  rw [fX1_sidesDiffer] at h
  refine s_i (cc := cX1_sidesDiffer) (nL := 1) (own := RX1) hE (cW_WA ad κ) (plainFor_of_name (by decide)) rfl rfl (Nat.le_of_ble_eq_true rfl) (fun Γ G hret => ?_)
  refine r_aload_n G 0 rfl rfl dX1_sidesDiffer_0 ?_
  refine r_get G (C := RX1) (T := TX1) (N := 3) kX1_sidesDiffer_X1 78 (cw_LAWS ad κ _) rfl 0 (by decide) mX1_sidesDiffer_f12 rfl rfl dX1_sidesDiffer_1 ?_
  refine r_aload_n G 0 rfl rfl dX1_sidesDiffer_4 ?_
  refine r_get G (C := RX1) (T := TX1) (N := 3) kX1_sidesDiffer_X1 78 (cw_LAWS ad κ _) rfl 1 (by decide) mX1_sidesDiffer_f18 rfl rfl dX1_sidesDiffer_5 ?_
  refine r_callVi G [.ref (ad 53)] (qX2_sameAs hE 52 (by decide) 53 (by decide) _) ⟨52, 2, _, _, rfl, (cw_MS ad κ _ (by decide)), rfl⟩ gX1_sidesDiffer_X2_sameAs rfl hdX2_sameAs ⟨Nat.le_of_ble_eq_true rfl, Nat.le_of_ble_eq_true rfl⟩ (Nat.le_of_ble_eq_true rfl) rfl ⟨Nat.le_of_ble_eq_true rfl, Nat.le_of_ble_eq_true rfl⟩ rfl rfl dX1_sidesDiffer_8 (fun r1 s1 hp hn1 => ?_)
  obtain ⟨rfl, hs⟩ := hp
  have hs := hs.symm
  subst hs
  refine r_if_eq G (tgt := 18) dX1_sidesDiffer_11 (by decide) (fun c => ?_) (fun c => ?_)
  · rw [if_pos c] at h
    refine r_iconst G (v := 1) (by decide) dX1_sidesDiffer_18 ?_
    exact hret _ _ _ _ _ _ dX1_sidesDiffer_19 ⟨h, rfl⟩ rfl (Nat.le_of_ble_eq_true rfl) (Nat.le_of_ble_eq_true rfl)
  · rw [if_neg c] at h
    refine r_iconst G (v := 0) (by decide) dX1_sidesDiffer_14 ?_
    refine r_goto G (tgt := 19) dX1_sidesDiffer_15 (by decide) ?_
    exact hret _ _ _ _ _ _ dX1_sidesDiffer_19 ⟨h, rfl⟩ rfl (Nat.le_of_ble_eq_true rfl) (Nat.le_of_ble_eq_true rfl)
abbrev rmX1_orderErrors : Room := { frames := 2, cells := 0, slots := 0, locals := 49 }
set_option maxRecDepth 20000 in
theorem kX1_orderErrors_X1 : ∀ w ∈ u_ws RX1 TX1 3, w ∈ wsX1_orderErrors := by decide +kernel
set_option maxRecDepth 20000 in
theorem mX1_orderErrors_f12 : Cond.fieldLink RX1 12 "SetCouncil$Laws" "left" "LSetCouncil$MemberSet;" ∈ wsX1_orderErrors := by decide +kernel
theorem hdX1_make : yX1_make.cls ≠ "java/lang/invoke/MethodHandle" ∧ yX1_make.cls ≠ "java/lang/invoke/VarHandle" ∧ (parseMethodDescriptor yX1_make.desc).map (fun d => d.parameters.length) = some 4 := by decide +kernel
set_option maxRecDepth 20000 in
theorem mX1_orderErrors_f18 : Cond.fieldLink RX1 18 "SetCouncil$Laws" "right" "LSetCouncil$MemberSet;" ∈ wsX1_orderErrors := by decide +kernel
theorem hdX1_sidesDiffer : yX1_sidesDiffer.cls = RX1 ∧ yX1_sidesDiffer.cls ≠ "java/lang/invoke/MethodHandle" ∧ yX1_sidesDiffer.cls ≠ "java/lang/invoke/VarHandle" ∧ (parseMethodDescriptor yX1_sidesDiffer.desc).map (fun d => d.parameters.length) = some 0 := by decide +kernel
set_option maxHeartbeats 4000000 in
set_option maxRecDepth 100000 in
theorem qX1_orderErrors {E : evT} {l : Launch} {D : va_G} {ad : Nat → Nat} {κ : Nat → ClassId} (hE : EvOk E) (p0 : Int32) (p1 : Nat) (hp1 : p1 < 55) (p2 : Nat) (hp2 : p2 < 55) (s : cS) {o : (Int32 × cS)} (h : fX1_orderErrors p0 p1 p2 s = some o) : Ci l yX1_orderErrors wsX1_orderErrors rmX1_orderErrors (cW ad κ) E D (tyA κ) .int [.ref (ad 78), .int p0, .ref (ad p1), .ref (ad p2)] s (fun r s2 => o = (r, s2)) := by
  rw [fX1_orderErrors] at h
  refine s_i (cc := cX1_orderErrors) (nL := 4) (own := RX1) hE (cW_WA ad κ) (plainFor_of_name (by decide)) rfl rfl (Nat.le_of_ble_eq_true rfl) (fun Γ G hret => ?_)
  refine r_aload_n G 0 rfl rfl dX1_orderErrors_0 ?_
  refine r_get G (C := RX1) (T := TX1) (N := 3) kX1_orderErrors_X1 78 (cw_LAWS ad κ _) rfl 0 (by decide) mX1_orderErrors_f12 rfl rfl dX1_orderErrors_1 ?_
  refine r_iload_n G 1 rfl rfl dX1_orderErrors_4 ?_
  refine r_aload_n G 2 rfl rfl dX1_orderErrors_5 ?_
  refine r_aload_n G 3 rfl rfl dX1_orderErrors_6 ?_
  obtain ⟨o1, e1, h⟩ := ob h
  refine r_callSv G [.ref (ad 52), .int p0, .ref (ad p1), .ref (ad p2)] (qX1_make hE 52 (by decide) p0 p1 hp1 p2 hp2 _ e1) gX1_orderErrors_X1_make rfl hdX1_make ⟨Nat.le_of_ble_eq_true rfl, Nat.le_of_ble_eq_true rfl⟩ (Nat.le_of_ble_eq_true rfl) rfl ⟨Nat.le_of_ble_eq_true rfl, Nat.le_of_ble_eq_true rfl⟩ rfl rfl dX1_orderErrors_7 (fun s1 hp => ?_)
  have hp := hp.symm
  subst hp
  try dsimp only at h
  refine r_aload_n G 0 rfl rfl dX1_orderErrors_10 ?_
  refine r_get G (C := RX1) (T := TX1) (N := 3) kX1_orderErrors_X1 78 (cw_LAWS ad κ _) rfl 1 (by decide) mX1_orderErrors_f18 rfl rfl dX1_orderErrors_11 ?_
  refine r_iload_n G 1 rfl rfl dX1_orderErrors_14 ?_
  refine r_aload_n G 3 rfl rfl dX1_orderErrors_15 ?_
  refine r_aload_n G 2 rfl rfl dX1_orderErrors_16 ?_
  obtain ⟨o2, e2, h⟩ := ob h
  refine r_callSv G [.ref (ad 53), .int p0, .ref (ad p2), .ref (ad p1)] (qX1_make hE 53 (by decide) p0 p2 hp2 p1 hp1 _ e2) gX1_orderErrors_X1_make rfl hdX1_make ⟨Nat.le_of_ble_eq_true rfl, Nat.le_of_ble_eq_true rfl⟩ (Nat.le_of_ble_eq_true rfl) rfl ⟨Nat.le_of_ble_eq_true rfl, Nat.le_of_ble_eq_true rfl⟩ rfl rfl dX1_orderErrors_17 (fun s2 hp => ?_)
  have hp := hp.symm
  subst hp
  try dsimp only at h
  refine r_aload_n G 0 rfl rfl dX1_orderErrors_20 ?_
  refine r_callVi G [] (qX1_sidesDiffer hE _) ⟨78, 1, _, _, rfl, (cw_LAWS ad κ _), rfl⟩ gX1_orderErrors_X1_sidesDiffer rfl hdX1_sidesDiffer ⟨Nat.le_of_ble_eq_true rfl, Nat.le_of_ble_eq_true rfl⟩ (Nat.le_of_ble_eq_true rfl) rfl ⟨Nat.le_of_ble_eq_true rfl, Nat.le_of_ble_eq_true rfl⟩ rfl rfl dX1_orderErrors_21 (fun r3 s3 hp hn3 => ?_)
  obtain ⟨rfl, hs⟩ := hp
  have hs := hs.symm
  subst hs
  exact hret _ _ _ _ _ _ dX1_orderErrors_24 (Option.some.inj h).symm rfl (Nat.le_of_ble_eq_true rfl) (Nat.le_of_ble_eq_true rfl)
abbrev rmX1_bracketErrors : Room := { frames := 2, cells := 0, slots := 0, locals := 49 }
set_option maxRecDepth 20000 in
theorem kX1_bracketErrors_X1 : ∀ w ∈ u_ws RX1 TX1 3, w ∈ wsX1_bracketErrors := by decide +kernel
set_option maxRecDepth 20000 in
theorem mX1_bracketErrors_f12 : Cond.fieldLink RX1 12 "SetCouncil$Laws" "left" "LSetCouncil$MemberSet;" ∈ wsX1_bracketErrors := by decide +kernel
set_option maxRecDepth 20000 in
theorem mX1_bracketErrors_f21 : Cond.fieldLink RX1 21 "SetCouncil$Laws" "part" "LSetCouncil$MemberSet;" ∈ wsX1_bracketErrors := by decide +kernel
set_option maxRecDepth 20000 in
theorem mX1_bracketErrors_f18 : Cond.fieldLink RX1 18 "SetCouncil$Laws" "right" "LSetCouncil$MemberSet;" ∈ wsX1_bracketErrors := by decide +kernel
set_option maxHeartbeats 4000000 in
set_option maxRecDepth 100000 in
theorem qX1_bracketErrors {E : evT} {l : Launch} {D : va_G} {ad : Nat → Nat} {κ : Nat → ClassId} (hE : EvOk E) (p0 : Int32) (p1 : Nat) (hp1 : p1 < 55) (p2 : Nat) (hp2 : p2 < 55) (p3 : Nat) (hp3 : p3 < 55) (s : cS) {o : (Int32 × cS)} (h : fX1_bracketErrors p0 p1 p2 p3 s = some o) : Ci l yX1_bracketErrors wsX1_bracketErrors rmX1_bracketErrors (cW ad κ) E D (tyA κ) .int [.ref (ad 78), .int p0, .ref (ad p1), .ref (ad p2), .ref (ad p3)] s (fun r s2 => o = (r, s2)) := by
  rw [fX1_bracketErrors] at h
  refine s_i (cc := cX1_bracketErrors) (nL := 5) (own := RX1) hE (cW_WA ad κ) (plainFor_of_name (by decide)) rfl rfl (Nat.le_of_ble_eq_true rfl) (fun Γ G hret => ?_)
  refine r_aload_n G 0 rfl rfl dX1_bracketErrors_0 ?_
  refine r_get G (C := RX1) (T := TX1) (N := 3) kX1_bracketErrors_X1 78 (cw_LAWS ad κ _) rfl 0 (by decide) mX1_bracketErrors_f12 rfl rfl dX1_bracketErrors_1 ?_
  refine r_iload_n G 1 rfl rfl dX1_bracketErrors_4 ?_
  refine r_aload_n G 2 rfl rfl dX1_bracketErrors_5 ?_
  refine r_aload_n G 3 rfl rfl dX1_bracketErrors_6 ?_
  obtain ⟨o1, e1, h⟩ := ob h
  refine r_callSv G [.ref (ad 52), .int p0, .ref (ad p1), .ref (ad p2)] (qX1_make hE 52 (by decide) p0 p1 hp1 p2 hp2 _ e1) gX1_bracketErrors_X1_make rfl hdX1_make ⟨Nat.le_of_ble_eq_true rfl, Nat.le_of_ble_eq_true rfl⟩ (Nat.le_of_ble_eq_true rfl) rfl ⟨Nat.le_of_ble_eq_true rfl, Nat.le_of_ble_eq_true rfl⟩ rfl rfl dX1_bracketErrors_7 (fun s1 hp => ?_)
  have hp := hp.symm
  subst hp
  try dsimp only at h
  refine r_aload_n G 0 rfl rfl dX1_bracketErrors_10 ?_
  refine r_get G (C := RX1) (T := TX1) (N := 3) kX1_bracketErrors_X1 78 (cw_LAWS ad κ _) rfl 0 (by decide) mX1_bracketErrors_f12 rfl rfl dX1_bracketErrors_11 ?_
  refine r_iload_n G 1 rfl rfl dX1_bracketErrors_14 ?_
  refine r_aload G 4 rfl dX1_bracketErrors_15 ?_
  obtain ⟨o2, e2, h⟩ := ob h
  refine r_callVi G [.int p0, .ref (ad p3)] (qX2_combine hE 52 (by decide) p0 p3 hp3 _ e2) ⟨52, 2, _, _, rfl, (cw_MS ad κ _ (by decide)), rfl⟩ gX1_bracketErrors_X2_combine rfl hdX2_combine ⟨Nat.le_of_ble_eq_true rfl, Nat.le_of_ble_eq_true rfl⟩ (Nat.le_of_ble_eq_true rfl) rfl ⟨Nat.le_of_ble_eq_true rfl, Nat.le_of_ble_eq_true rfl⟩ rfl rfl dX1_bracketErrors_17 (fun r2 s2 hp hn2 => ?_)
  subst hp
  try dsimp only at h
  refine r_pop G rfl dX1_bracketErrors_20 ?_
  refine r_aload_n G 0 rfl rfl dX1_bracketErrors_21 ?_
  refine r_get G (C := RX1) (T := TX1) (N := 3) kX1_bracketErrors_X1 78 (cw_LAWS ad κ _) rfl 2 (by decide) mX1_bracketErrors_f21 rfl rfl dX1_bracketErrors_22 ?_
  refine r_iload_n G 1 rfl rfl dX1_bracketErrors_25 ?_
  refine r_aload_n G 3 rfl rfl dX1_bracketErrors_26 ?_
  refine r_aload G 4 rfl dX1_bracketErrors_27 ?_
  obtain ⟨o3, e3, h⟩ := ob h
  refine r_callSv G [.ref (ad 54), .int p0, .ref (ad p2), .ref (ad p3)] (qX1_make hE 54 (by decide) p0 p2 hp2 p3 hp3 _ e3) gX1_bracketErrors_X1_make rfl hdX1_make ⟨Nat.le_of_ble_eq_true rfl, Nat.le_of_ble_eq_true rfl⟩ (Nat.le_of_ble_eq_true rfl) rfl ⟨Nat.le_of_ble_eq_true rfl, Nat.le_of_ble_eq_true rfl⟩ rfl rfl dX1_bracketErrors_29 (fun s3 hp => ?_)
  have hp := hp.symm
  subst hp
  try dsimp only at h
  refine r_aload_n G 0 rfl rfl dX1_bracketErrors_32 ?_
  refine r_get G (C := RX1) (T := TX1) (N := 3) kX1_bracketErrors_X1 78 (cw_LAWS ad κ _) rfl 1 (by decide) mX1_bracketErrors_f18 rfl rfl dX1_bracketErrors_33 ?_
  refine r_iload_n G 1 rfl rfl dX1_bracketErrors_36 ?_
  refine r_aload_n G 2 rfl rfl dX1_bracketErrors_37 ?_
  refine r_aload_n G 0 rfl rfl dX1_bracketErrors_38 ?_
  refine r_get G (C := RX1) (T := TX1) (N := 3) kX1_bracketErrors_X1 78 (cw_LAWS ad κ _) rfl 2 (by decide) mX1_bracketErrors_f21 rfl rfl dX1_bracketErrors_39 ?_
  obtain ⟨o4, e4, h⟩ := ob h
  refine r_callSv G [.ref (ad 53), .int p0, .ref (ad p1), .ref (ad 54)] (qX1_make hE 53 (by decide) p0 p1 hp1 54 (by decide) _ e4) gX1_bracketErrors_X1_make rfl hdX1_make ⟨Nat.le_of_ble_eq_true rfl, Nat.le_of_ble_eq_true rfl⟩ (Nat.le_of_ble_eq_true rfl) rfl ⟨Nat.le_of_ble_eq_true rfl, Nat.le_of_ble_eq_true rfl⟩ rfl rfl dX1_bracketErrors_42 (fun s4 hp => ?_)
  have hp := hp.symm
  subst hp
  try dsimp only at h
  refine r_aload_n G 0 rfl rfl dX1_bracketErrors_45 ?_
  refine r_callVi G [] (qX1_sidesDiffer hE _) ⟨78, 1, _, _, rfl, (cw_LAWS ad κ _), rfl⟩ gX1_bracketErrors_X1_sidesDiffer rfl hdX1_sidesDiffer ⟨Nat.le_of_ble_eq_true rfl, Nat.le_of_ble_eq_true rfl⟩ (Nat.le_of_ble_eq_true rfl) rfl ⟨Nat.le_of_ble_eq_true rfl, Nat.le_of_ble_eq_true rfl⟩ rfl rfl dX1_bracketErrors_46 (fun r5 s5 hp hn5 => ?_)
  obtain ⟨rfl, hs⟩ := hp
  have hs := hs.symm
  subst hs
  exact hret _ _ _ _ _ _ dX1_bracketErrors_49 (Option.some.inj h).symm rfl (Nat.le_of_ble_eq_true rfl) (Nat.le_of_ble_eq_true rfl)
abbrev rmX1_itselfErrors : Room := { frames := 2, cells := 0, slots := 0, locals := 49 }
set_option maxRecDepth 20000 in
theorem kX1_itselfErrors_X1 : ∀ w ∈ u_ws RX1 TX1 3, w ∈ wsX1_itselfErrors := by decide +kernel
set_option maxRecDepth 20000 in
theorem mX1_itselfErrors_f12 : Cond.fieldLink RX1 12 "SetCouncil$Laws" "left" "LSetCouncil$MemberSet;" ∈ wsX1_itselfErrors := by decide +kernel
set_option maxRecDepth 20000 in
theorem mX1_itselfErrors_f18 : Cond.fieldLink RX1 18 "SetCouncil$Laws" "right" "LSetCouncil$MemberSet;" ∈ wsX1_itselfErrors := by decide +kernel
set_option maxRecDepth 20000 in
theorem mX1_itselfErrors_f21 : Cond.fieldLink RX1 21 "SetCouncil$Laws" "part" "LSetCouncil$MemberSet;" ∈ wsX1_itselfErrors := by decide +kernel
theorem hdX2_count : yX2_count.cls = RX2 ∧ yX2_count.cls ≠ "java/lang/invoke/MethodHandle" ∧ yX2_count.cls ≠ "java/lang/invoke/VarHandle" ∧ (parseMethodDescriptor yX2_count.desc).map (fun d => d.parameters.length) = some 0 := by decide +kernel
set_option maxHeartbeats 4000000 in
set_option maxRecDepth 100000 in
theorem qX1_itselfErrors {E : evT} {l : Launch} {D : va_G} {ad : Nat → Nat} {κ : Nat → ClassId} (hE : EvOk E) (p0 : Nat) (hp0 : p0 < 55) (s : cS) {o : (Int32 × cS)} (h : fX1_itselfErrors p0 s = some o) : Ci l yX1_itselfErrors wsX1_itselfErrors rmX1_itselfErrors (cW ad κ) E D (tyA κ) .int [.ref (ad 78), .ref (ad p0)] s (fun r s2 => o = (r, s2)) := by
  rw [fX1_itselfErrors] at h
  refine s_i (cc := cX1_itselfErrors) (nL := 2) (own := RX1) hE (cW_WA ad κ) (plainFor_of_name (by decide)) rfl rfl (Nat.le_of_ble_eq_true rfl) (fun Γ G hret => ?_)
  refine r_aload_n G 0 rfl rfl dX1_itselfErrors_0 ?_
  refine r_get G (C := RX1) (T := TX1) (N := 3) kX1_itselfErrors_X1 78 (cw_LAWS ad κ _) rfl 0 (by decide) mX1_itselfErrors_f12 rfl rfl dX1_itselfErrors_1 ?_
  refine r_iconst G (v := 0) (by decide) dX1_itselfErrors_4 ?_
  refine r_aload_n G 1 rfl rfl dX1_itselfErrors_5 ?_
  refine r_aload_n G 1 rfl rfl dX1_itselfErrors_6 ?_
  obtain ⟨o1, e1, h⟩ := ob h
  refine r_callSv G [.ref (ad 52), .int 0, .ref (ad p0), .ref (ad p0)] (qX1_make hE 52 (by decide) (0 : Int32) p0 hp0 p0 hp0 _ e1) gX1_itselfErrors_X1_make rfl hdX1_make ⟨Nat.le_of_ble_eq_true rfl, Nat.le_of_ble_eq_true rfl⟩ (Nat.le_of_ble_eq_true rfl) rfl ⟨Nat.le_of_ble_eq_true rfl, Nat.le_of_ble_eq_true rfl⟩ rfl rfl dX1_itselfErrors_7 (fun s1 hp => ?_)
  have hp := hp.symm
  subst hp
  try dsimp only at h
  refine r_aload_n G 0 rfl rfl dX1_itselfErrors_10 ?_
  refine r_get G (C := RX1) (T := TX1) (N := 3) kX1_itselfErrors_X1 78 (cw_LAWS ad κ _) rfl 1 (by decide) mX1_itselfErrors_f18 rfl rfl dX1_itselfErrors_11 ?_
  refine r_iconst G (v := 1) (by decide) dX1_itselfErrors_14 ?_
  refine r_aload_n G 1 rfl rfl dX1_itselfErrors_15 ?_
  refine r_aload_n G 1 rfl rfl dX1_itselfErrors_16 ?_
  obtain ⟨o2, e2, h⟩ := ob h
  refine r_callSv G [.ref (ad 53), .int 1, .ref (ad p0), .ref (ad p0)] (qX1_make hE 53 (by decide) (1 : Int32) p0 hp0 p0 hp0 _ e2) gX1_itselfErrors_X1_make rfl hdX1_make ⟨Nat.le_of_ble_eq_true rfl, Nat.le_of_ble_eq_true rfl⟩ (Nat.le_of_ble_eq_true rfl) rfl ⟨Nat.le_of_ble_eq_true rfl, Nat.le_of_ble_eq_true rfl⟩ rfl rfl dX1_itselfErrors_17 (fun s2 hp => ?_)
  have hp := hp.symm
  subst hp
  try dsimp only at h
  refine r_aload_n G 0 rfl rfl dX1_itselfErrors_20 ?_
  refine r_get G (C := RX1) (T := TX1) (N := 3) kX1_itselfErrors_X1 78 (cw_LAWS ad κ _) rfl 2 (by decide) mX1_itselfErrors_f21 rfl rfl dX1_itselfErrors_21 ?_
  refine r_iconst G (v := 2) (by decide) dX1_itselfErrors_24 ?_
  refine r_aload_n G 1 rfl rfl dX1_itselfErrors_25 ?_
  refine r_aload_n G 1 rfl rfl dX1_itselfErrors_26 ?_
  obtain ⟨o3, e3, h⟩ := ob h
  refine r_callSv G [.ref (ad 54), .int 2, .ref (ad p0), .ref (ad p0)] (qX1_make hE 54 (by decide) (2 : Int32) p0 hp0 p0 hp0 _ e3) gX1_itselfErrors_X1_make rfl hdX1_make ⟨Nat.le_of_ble_eq_true rfl, Nat.le_of_ble_eq_true rfl⟩ (Nat.le_of_ble_eq_true rfl) rfl ⟨Nat.le_of_ble_eq_true rfl, Nat.le_of_ble_eq_true rfl⟩ rfl rfl dX1_itselfErrors_27 (fun s3 hp => ?_)
  have hp := hp.symm
  subst hp
  try dsimp only at h
  refine r_aload_n G 0 rfl rfl dX1_itselfErrors_30 ?_
  refine r_get G (C := RX1) (T := TX1) (N := 3) kX1_itselfErrors_X1 78 (cw_LAWS ad κ _) rfl 0 (by decide) mX1_itselfErrors_f12 rfl rfl dX1_itselfErrors_31 ?_
  refine r_aload_n G 1 rfl rfl dX1_itselfErrors_34 ?_
  refine r_callVi G [.ref (ad p0)] (qX2_sameAs hE 52 (by decide) p0 hp0 _) ⟨52, 2, _, _, rfl, (cw_MS ad κ _ (by decide)), rfl⟩ gX1_itselfErrors_X2_sameAs rfl hdX2_sameAs ⟨Nat.le_of_ble_eq_true rfl, Nat.le_of_ble_eq_true rfl⟩ (Nat.le_of_ble_eq_true rfl) rfl ⟨Nat.le_of_ble_eq_true rfl, Nat.le_of_ble_eq_true rfl⟩ rfl rfl dX1_itselfErrors_35 (fun r4 s4 hp hn4 => ?_)
  obtain ⟨rfl, hs⟩ := hp
  have hs := hs.symm
  subst hs
  refine r_if_eq G (tgt := 45) dX1_itselfErrors_38 (by decide) (fun c => ?_) (fun c => ?_)
  · rw [if_pos c] at h
    refine r_iconst G (v := 1) (by decide) dX1_itselfErrors_45 ?_
    refine r_aload_n G 0 rfl rfl dX1_itselfErrors_46 ?_
    refine r_get G (C := RX1) (T := TX1) (N := 3) kX1_itselfErrors_X1 78 (cw_LAWS ad κ _) rfl 1 (by decide) mX1_itselfErrors_f18 rfl rfl dX1_itselfErrors_47 ?_
    refine r_aload_n G 1 rfl rfl dX1_itselfErrors_50 ?_
    refine r_callVi G [.ref (ad p0)] (qX2_sameAs hE 53 (by decide) p0 hp0 _) ⟨53, 2, _, _, rfl, (cw_MS ad κ _ (by decide)), rfl⟩ gX1_itselfErrors_X2_sameAs rfl hdX2_sameAs ⟨Nat.le_of_ble_eq_true rfl, Nat.le_of_ble_eq_true rfl⟩ (Nat.le_of_ble_eq_true rfl) rfl ⟨Nat.le_of_ble_eq_true rfl, Nat.le_of_ble_eq_true rfl⟩ rfl rfl dX1_itselfErrors_51 (fun r5 s5 hp hn5 => ?_)
    obtain ⟨rfl, hs⟩ := hp
    have hs := hs.symm
    subst hs
    refine r_if_eq G (tgt := 61) dX1_itselfErrors_54 (by decide) (fun c => ?_) (fun c => ?_)
    · rw [if_pos c] at h
      refine r_iconst G (v := 1) (by decide) dX1_itselfErrors_61 ?_
      refine r_iadd G dX1_itselfErrors_62 ?_
      refine r_aload_n G 0 rfl rfl dX1_itselfErrors_63 ?_
      refine r_get G (C := RX1) (T := TX1) (N := 3) kX1_itselfErrors_X1 78 (cw_LAWS ad κ _) rfl 2 (by decide) mX1_itselfErrors_f21 rfl rfl dX1_itselfErrors_64 ?_
      refine r_callVi G [] (qX2_count hE 54 (by decide) _) ⟨54, 2, _, _, rfl, (cw_MS ad κ _ (by decide)), rfl⟩ gX1_itselfErrors_X2_count rfl hdX2_count ⟨Nat.le_of_ble_eq_true rfl, Nat.le_of_ble_eq_true rfl⟩ (Nat.le_of_ble_eq_true rfl) rfl ⟨Nat.le_of_ble_eq_true rfl, Nat.le_of_ble_eq_true rfl⟩ rfl rfl dX1_itselfErrors_67 (fun r6 s6 hp hn6 => ?_)
      obtain ⟨rfl, hs⟩ := hp
      have hs := hs.symm
      subst hs
      refine r_if_ne G (tgt := 77) dX1_itselfErrors_70 (by decide) (fun c => ?_) (fun c => ?_)
      · rw [if_neg c] at h
        refine r_iconst G (v := 1) (by decide) dX1_itselfErrors_77 ?_
        refine r_iadd G dX1_itselfErrors_78 ?_
        exact hret _ _ _ _ _ _ dX1_itselfErrors_79 (Option.some.inj h).symm rfl (Nat.le_of_ble_eq_true rfl) (Nat.le_of_ble_eq_true rfl)
      · rw [if_pos c] at h
        refine r_iconst G (v := 0) (by decide) dX1_itselfErrors_73 ?_
        refine r_goto G (tgt := 78) dX1_itselfErrors_74 (by decide) ?_
        refine r_iadd G dX1_itselfErrors_78 ?_
        exact hret _ _ _ _ _ _ dX1_itselfErrors_79 (Option.some.inj h).symm rfl (Nat.le_of_ble_eq_true rfl) (Nat.le_of_ble_eq_true rfl)
    · rw [if_neg c] at h
      refine r_iconst G (v := 0) (by decide) dX1_itselfErrors_57 ?_
      refine r_goto G (tgt := 62) dX1_itselfErrors_58 (by decide) ?_
      refine r_iadd G dX1_itselfErrors_62 ?_
      refine r_aload_n G 0 rfl rfl dX1_itselfErrors_63 ?_
      refine r_get G (C := RX1) (T := TX1) (N := 3) kX1_itselfErrors_X1 78 (cw_LAWS ad κ _) rfl 2 (by decide) mX1_itselfErrors_f21 rfl rfl dX1_itselfErrors_64 ?_
      refine r_callVi G [] (qX2_count hE 54 (by decide) _) ⟨54, 2, _, _, rfl, (cw_MS ad κ _ (by decide)), rfl⟩ gX1_itselfErrors_X2_count rfl hdX2_count ⟨Nat.le_of_ble_eq_true rfl, Nat.le_of_ble_eq_true rfl⟩ (Nat.le_of_ble_eq_true rfl) rfl ⟨Nat.le_of_ble_eq_true rfl, Nat.le_of_ble_eq_true rfl⟩ rfl rfl dX1_itselfErrors_67 (fun r7 s7 hp hn7 => ?_)
      obtain ⟨rfl, hs⟩ := hp
      have hs := hs.symm
      subst hs
      refine r_if_ne G (tgt := 77) dX1_itselfErrors_70 (by decide) (fun c => ?_) (fun c => ?_)
      · rw [if_neg c] at h
        refine r_iconst G (v := 1) (by decide) dX1_itselfErrors_77 ?_
        refine r_iadd G dX1_itselfErrors_78 ?_
        exact hret _ _ _ _ _ _ dX1_itselfErrors_79 (Option.some.inj h).symm rfl (Nat.le_of_ble_eq_true rfl) (Nat.le_of_ble_eq_true rfl)
      · rw [if_pos c] at h
        refine r_iconst G (v := 0) (by decide) dX1_itselfErrors_73 ?_
        refine r_goto G (tgt := 78) dX1_itselfErrors_74 (by decide) ?_
        refine r_iadd G dX1_itselfErrors_78 ?_
        exact hret _ _ _ _ _ _ dX1_itselfErrors_79 (Option.some.inj h).symm rfl (Nat.le_of_ble_eq_true rfl) (Nat.le_of_ble_eq_true rfl)
  · rw [if_neg c] at h
    refine r_iconst G (v := 0) (by decide) dX1_itselfErrors_41 ?_
    refine r_goto G (tgt := 46) dX1_itselfErrors_42 (by decide) ?_
    refine r_aload_n G 0 rfl rfl dX1_itselfErrors_46 ?_
    refine r_get G (C := RX1) (T := TX1) (N := 3) kX1_itselfErrors_X1 78 (cw_LAWS ad κ _) rfl 1 (by decide) mX1_itselfErrors_f18 rfl rfl dX1_itselfErrors_47 ?_
    refine r_aload_n G 1 rfl rfl dX1_itselfErrors_50 ?_
    refine r_callVi G [.ref (ad p0)] (qX2_sameAs hE 53 (by decide) p0 hp0 _) ⟨53, 2, _, _, rfl, (cw_MS ad κ _ (by decide)), rfl⟩ gX1_itselfErrors_X2_sameAs rfl hdX2_sameAs ⟨Nat.le_of_ble_eq_true rfl, Nat.le_of_ble_eq_true rfl⟩ (Nat.le_of_ble_eq_true rfl) rfl ⟨Nat.le_of_ble_eq_true rfl, Nat.le_of_ble_eq_true rfl⟩ rfl rfl dX1_itselfErrors_51 (fun r8 s8 hp hn8 => ?_)
    obtain ⟨rfl, hs⟩ := hp
    have hs := hs.symm
    subst hs
    refine r_if_eq G (tgt := 61) dX1_itselfErrors_54 (by decide) (fun c => ?_) (fun c => ?_)
    · rw [if_pos c] at h
      refine r_iconst G (v := 1) (by decide) dX1_itselfErrors_61 ?_
      refine r_iadd G dX1_itselfErrors_62 ?_
      refine r_aload_n G 0 rfl rfl dX1_itselfErrors_63 ?_
      refine r_get G (C := RX1) (T := TX1) (N := 3) kX1_itselfErrors_X1 78 (cw_LAWS ad κ _) rfl 2 (by decide) mX1_itselfErrors_f21 rfl rfl dX1_itselfErrors_64 ?_
      refine r_callVi G [] (qX2_count hE 54 (by decide) _) ⟨54, 2, _, _, rfl, (cw_MS ad κ _ (by decide)), rfl⟩ gX1_itselfErrors_X2_count rfl hdX2_count ⟨Nat.le_of_ble_eq_true rfl, Nat.le_of_ble_eq_true rfl⟩ (Nat.le_of_ble_eq_true rfl) rfl ⟨Nat.le_of_ble_eq_true rfl, Nat.le_of_ble_eq_true rfl⟩ rfl rfl dX1_itselfErrors_67 (fun r9 s9 hp hn9 => ?_)
      obtain ⟨rfl, hs⟩ := hp
      have hs := hs.symm
      subst hs
      refine r_if_ne G (tgt := 77) dX1_itselfErrors_70 (by decide) (fun c => ?_) (fun c => ?_)
      · rw [if_neg c] at h
        refine r_iconst G (v := 1) (by decide) dX1_itselfErrors_77 ?_
        refine r_iadd G dX1_itselfErrors_78 ?_
        exact hret _ _ _ _ _ _ dX1_itselfErrors_79 (Option.some.inj h).symm rfl (Nat.le_of_ble_eq_true rfl) (Nat.le_of_ble_eq_true rfl)
      · rw [if_pos c] at h
        refine r_iconst G (v := 0) (by decide) dX1_itselfErrors_73 ?_
        refine r_goto G (tgt := 78) dX1_itselfErrors_74 (by decide) ?_
        refine r_iadd G dX1_itselfErrors_78 ?_
        exact hret _ _ _ _ _ _ dX1_itselfErrors_79 (Option.some.inj h).symm rfl (Nat.le_of_ble_eq_true rfl) (Nat.le_of_ble_eq_true rfl)
    · rw [if_neg c] at h
      refine r_iconst G (v := 0) (by decide) dX1_itselfErrors_57 ?_
      refine r_goto G (tgt := 62) dX1_itselfErrors_58 (by decide) ?_
      refine r_iadd G dX1_itselfErrors_62 ?_
      refine r_aload_n G 0 rfl rfl dX1_itselfErrors_63 ?_
      refine r_get G (C := RX1) (T := TX1) (N := 3) kX1_itselfErrors_X1 78 (cw_LAWS ad κ _) rfl 2 (by decide) mX1_itselfErrors_f21 rfl rfl dX1_itselfErrors_64 ?_
      refine r_callVi G [] (qX2_count hE 54 (by decide) _) ⟨54, 2, _, _, rfl, (cw_MS ad κ _ (by decide)), rfl⟩ gX1_itselfErrors_X2_count rfl hdX2_count ⟨Nat.le_of_ble_eq_true rfl, Nat.le_of_ble_eq_true rfl⟩ (Nat.le_of_ble_eq_true rfl) rfl ⟨Nat.le_of_ble_eq_true rfl, Nat.le_of_ble_eq_true rfl⟩ rfl rfl dX1_itselfErrors_67 (fun r10 s10 hp hn10 => ?_)
      obtain ⟨rfl, hs⟩ := hp
      have hs := hs.symm
      subst hs
      refine r_if_ne G (tgt := 77) dX1_itselfErrors_70 (by decide) (fun c => ?_) (fun c => ?_)
      · rw [if_neg c] at h
        refine r_iconst G (v := 1) (by decide) dX1_itselfErrors_77 ?_
        refine r_iadd G dX1_itselfErrors_78 ?_
        exact hret _ _ _ _ _ _ dX1_itselfErrors_79 (Option.some.inj h).symm rfl (Nat.le_of_ble_eq_true rfl) (Nat.le_of_ble_eq_true rfl)
      · rw [if_pos c] at h
        refine r_iconst G (v := 0) (by decide) dX1_itselfErrors_73 ?_
        refine r_goto G (tgt := 78) dX1_itselfErrors_74 (by decide) ?_
        refine r_iadd G dX1_itselfErrors_78 ?_
        exact hret _ _ _ _ _ _ dX1_itselfErrors_79 (Option.some.inj h).symm rfl (Nat.le_of_ble_eq_true rfl) (Nat.le_of_ble_eq_true rfl)
abbrev rmX1_partErrors : Room := { frames := 2, cells := 0, slots := 0, locals := 49 }
set_option maxRecDepth 20000 in
theorem kX1_partErrors_X1 : ∀ w ∈ u_ws RX1 TX1 3, w ∈ wsX1_partErrors := by decide +kernel
set_option maxRecDepth 20000 in
theorem mX1_partErrors_f21 : Cond.fieldLink RX1 21 "SetCouncil$Laws" "part" "LSetCouncil$MemberSet;" ∈ wsX1_partErrors := by decide +kernel
set_option maxRecDepth 20000 in
theorem mX1_partErrors_f12 : Cond.fieldLink RX1 12 "SetCouncil$Laws" "left" "LSetCouncil$MemberSet;" ∈ wsX1_partErrors := by decide +kernel
set_option maxRecDepth 20000 in
theorem mX1_partErrors_f18 : Cond.fieldLink RX1 18 "SetCouncil$Laws" "right" "LSetCouncil$MemberSet;" ∈ wsX1_partErrors := by decide +kernel
set_option maxHeartbeats 4000000 in
set_option maxRecDepth 100000 in
theorem qX1_partErrors {E : evT} {l : Launch} {D : va_G} {ad : Nat → Nat} {κ : Nat → ClassId} (hE : EvOk E) (p0 : Int32) (p1 : Int32) (p2 : Nat) (hp2 : p2 < 55) (p3 : Nat) (hp3 : p3 < 55) (p4 : Nat) (hp4 : p4 < 55) (s : cS) {o : (Int32 × cS)} (h : fX1_partErrors p0 p1 p2 p3 p4 s = some o) : Ci l yX1_partErrors wsX1_partErrors rmX1_partErrors (cW ad κ) E D (tyA κ) .int [.ref (ad 78), .int p0, .int p1, .ref (ad p2), .ref (ad p3), .ref (ad p4)] s (fun r s2 => o = (r, s2)) := by
  rw [fX1_partErrors] at h
  refine s_i (cc := cX1_partErrors) (nL := 6) (own := RX1) hE (cW_WA ad κ) (plainFor_of_name (by decide)) rfl rfl (Nat.le_of_ble_eq_true rfl) (fun Γ G hret => ?_)
  refine r_aload_n G 0 rfl rfl dX1_partErrors_0 ?_
  refine r_get G (C := RX1) (T := TX1) (N := 3) kX1_partErrors_X1 78 (cw_LAWS ad κ _) rfl 2 (by decide) mX1_partErrors_f21 rfl rfl dX1_partErrors_1 ?_
  refine r_iload_n G 1 rfl rfl dX1_partErrors_4 ?_
  refine r_aload G 4 rfl dX1_partErrors_5 ?_
  refine r_aload G 5 rfl dX1_partErrors_7 ?_
  obtain ⟨o1, e1, h⟩ := ob h
  refine r_callSv G [.ref (ad 54), .int p0, .ref (ad p3), .ref (ad p4)] (qX1_make hE 54 (by decide) p0 p3 hp3 p4 hp4 _ e1) gX1_partErrors_X1_make rfl hdX1_make ⟨Nat.le_of_ble_eq_true rfl, Nat.le_of_ble_eq_true rfl⟩ (Nat.le_of_ble_eq_true rfl) rfl ⟨Nat.le_of_ble_eq_true rfl, Nat.le_of_ble_eq_true rfl⟩ rfl rfl dX1_partErrors_9 (fun s1 hp => ?_)
  have hp := hp.symm
  subst hp
  try dsimp only at h
  refine r_aload_n G 0 rfl rfl dX1_partErrors_12 ?_
  refine r_get G (C := RX1) (T := TX1) (N := 3) kX1_partErrors_X1 78 (cw_LAWS ad κ _) rfl 0 (by decide) mX1_partErrors_f12 rfl rfl dX1_partErrors_13 ?_
  refine r_iload_n G 2 rfl rfl dX1_partErrors_16 ?_
  refine r_aload_n G 3 rfl rfl dX1_partErrors_17 ?_
  refine r_aload_n G 0 rfl rfl dX1_partErrors_18 ?_
  refine r_get G (C := RX1) (T := TX1) (N := 3) kX1_partErrors_X1 78 (cw_LAWS ad κ _) rfl 2 (by decide) mX1_partErrors_f21 rfl rfl dX1_partErrors_19 ?_
  obtain ⟨o2, e2, h⟩ := ob h
  refine r_callSv G [.ref (ad 52), .int p1, .ref (ad p2), .ref (ad 54)] (qX1_make hE 52 (by decide) p1 p2 hp2 54 (by decide) _ e2) gX1_partErrors_X1_make rfl hdX1_make ⟨Nat.le_of_ble_eq_true rfl, Nat.le_of_ble_eq_true rfl⟩ (Nat.le_of_ble_eq_true rfl) rfl ⟨Nat.le_of_ble_eq_true rfl, Nat.le_of_ble_eq_true rfl⟩ rfl rfl dX1_partErrors_22 (fun s2 hp => ?_)
  have hp := hp.symm
  subst hp
  try dsimp only at h
  refine r_aload_n G 0 rfl rfl dX1_partErrors_25 ?_
  refine r_get G (C := RX1) (T := TX1) (N := 3) kX1_partErrors_X1 78 (cw_LAWS ad κ _) rfl 2 (by decide) mX1_partErrors_f21 rfl rfl dX1_partErrors_26 ?_
  refine r_iload_n G 2 rfl rfl dX1_partErrors_29 ?_
  refine r_aload_n G 3 rfl rfl dX1_partErrors_30 ?_
  refine r_aload G 5 rfl dX1_partErrors_31 ?_
  obtain ⟨o3, e3, h⟩ := ob h
  refine r_callSv G [.ref (ad 54), .int p1, .ref (ad p2), .ref (ad p4)] (qX1_make hE 54 (by decide) p1 p2 hp2 p4 hp4 _ e3) gX1_partErrors_X1_make rfl hdX1_make ⟨Nat.le_of_ble_eq_true rfl, Nat.le_of_ble_eq_true rfl⟩ (Nat.le_of_ble_eq_true rfl) rfl ⟨Nat.le_of_ble_eq_true rfl, Nat.le_of_ble_eq_true rfl⟩ rfl rfl dX1_partErrors_33 (fun s3 hp => ?_)
  have hp := hp.symm
  subst hp
  try dsimp only at h
  refine r_aload_n G 0 rfl rfl dX1_partErrors_36 ?_
  refine r_get G (C := RX1) (T := TX1) (N := 3) kX1_partErrors_X1 78 (cw_LAWS ad κ _) rfl 1 (by decide) mX1_partErrors_f18 rfl rfl dX1_partErrors_37 ?_
  refine r_iload_n G 2 rfl rfl dX1_partErrors_40 ?_
  refine r_aload_n G 3 rfl rfl dX1_partErrors_41 ?_
  refine r_aload G 4 rfl dX1_partErrors_42 ?_
  obtain ⟨o4, e4, h⟩ := ob h
  refine r_callSv G [.ref (ad 53), .int p1, .ref (ad p2), .ref (ad p3)] (qX1_make hE 53 (by decide) p1 p2 hp2 p3 hp3 _ e4) gX1_partErrors_X1_make rfl hdX1_make ⟨Nat.le_of_ble_eq_true rfl, Nat.le_of_ble_eq_true rfl⟩ (Nat.le_of_ble_eq_true rfl) rfl ⟨Nat.le_of_ble_eq_true rfl, Nat.le_of_ble_eq_true rfl⟩ rfl rfl dX1_partErrors_44 (fun s4 hp => ?_)
  have hp := hp.symm
  subst hp
  try dsimp only at h
  refine r_aload_n G 0 rfl rfl dX1_partErrors_47 ?_
  refine r_get G (C := RX1) (T := TX1) (N := 3) kX1_partErrors_X1 78 (cw_LAWS ad κ _) rfl 1 (by decide) mX1_partErrors_f18 rfl rfl dX1_partErrors_48 ?_
  refine r_iload_n G 1 rfl rfl dX1_partErrors_51 ?_
  refine r_aload_n G 0 rfl rfl dX1_partErrors_52 ?_
  refine r_get G (C := RX1) (T := TX1) (N := 3) kX1_partErrors_X1 78 (cw_LAWS ad κ _) rfl 2 (by decide) mX1_partErrors_f21 rfl rfl dX1_partErrors_53 ?_
  obtain ⟨o5, e5, h⟩ := ob h
  refine r_callVi G [.int p0, .ref (ad 54)] (qX2_combine hE 53 (by decide) p0 54 (by decide) _ e5) ⟨53, 2, _, _, rfl, (cw_MS ad κ _ (by decide)), rfl⟩ gX1_partErrors_X2_combine rfl hdX2_combine ⟨Nat.le_of_ble_eq_true rfl, Nat.le_of_ble_eq_true rfl⟩ (Nat.le_of_ble_eq_true rfl) rfl ⟨Nat.le_of_ble_eq_true rfl, Nat.le_of_ble_eq_true rfl⟩ rfl rfl dX1_partErrors_56 (fun r5 s5 hp hn5 => ?_)
  subst hp
  try dsimp only at h
  refine r_pop G rfl dX1_partErrors_59 ?_
  refine r_aload_n G 0 rfl rfl dX1_partErrors_60 ?_
  refine r_callVi G [] (qX1_sidesDiffer hE _) ⟨78, 1, _, _, rfl, (cw_LAWS ad κ _), rfl⟩ gX1_partErrors_X1_sidesDiffer rfl hdX1_sidesDiffer ⟨Nat.le_of_ble_eq_true rfl, Nat.le_of_ble_eq_true rfl⟩ (Nat.le_of_ble_eq_true rfl) rfl ⟨Nat.le_of_ble_eq_true rfl, Nat.le_of_ble_eq_true rfl⟩ rfl rfl dX1_partErrors_61 (fun r6 s6 hp hn6 => ?_)
  obtain ⟨rfl, hs⟩ := hp
  have hs := hs.symm
  subst hs
  exact hret _ _ _ _ _ _ dX1_partErrors_64 (Option.some.inj h).symm rfl (Nat.le_of_ble_eq_true rfl) (Nat.le_of_ble_eq_true rfl)
abbrev rmX1_withoutErrors : Room := { frames := 2, cells := 0, slots := 0, locals := 49 }
set_option maxRecDepth 20000 in
theorem kX1_withoutErrors_X1 : ∀ w ∈ u_ws RX1 TX1 3, w ∈ wsX1_withoutErrors := by decide +kernel
set_option maxRecDepth 20000 in
theorem mX1_withoutErrors_f21 : Cond.fieldLink RX1 21 "SetCouncil$Laws" "part" "LSetCouncil$MemberSet;" ∈ wsX1_withoutErrors := by decide +kernel
set_option maxRecDepth 20000 in
theorem mX1_withoutErrors_f12 : Cond.fieldLink RX1 12 "SetCouncil$Laws" "left" "LSetCouncil$MemberSet;" ∈ wsX1_withoutErrors := by decide +kernel
set_option maxRecDepth 20000 in
theorem mX1_withoutErrors_f18 : Cond.fieldLink RX1 18 "SetCouncil$Laws" "right" "LSetCouncil$MemberSet;" ∈ wsX1_withoutErrors := by decide +kernel
set_option maxHeartbeats 4000000 in
set_option maxRecDepth 100000 in
theorem qX1_withoutErrors {E : evT} {l : Launch} {D : va_G} {ad : Nat → Nat} {κ : Nat → ClassId} (hE : EvOk E) (p0 : Int32) (p1 : Int32) (p2 : Nat) (hp2 : p2 < 55) (p3 : Nat) (hp3 : p3 < 55) (p4 : Nat) (hp4 : p4 < 55) (s : cS) {o : (Int32 × cS)} (h : fX1_withoutErrors p0 p1 p2 p3 p4 s = some o) : Ci l yX1_withoutErrors wsX1_withoutErrors rmX1_withoutErrors (cW ad κ) E D (tyA κ) .int [.ref (ad 78), .int p0, .int p1, .ref (ad p2), .ref (ad p3), .ref (ad p4)] s (fun r s2 => o = (r, s2)) := by
  rw [fX1_withoutErrors] at h
  refine s_i (cc := cX1_withoutErrors) (nL := 6) (own := RX1) hE (cW_WA ad κ) (plainFor_of_name (by decide)) rfl rfl (Nat.le_of_ble_eq_true rfl) (fun Γ G hret => ?_)
  refine r_aload_n G 0 rfl rfl dX1_withoutErrors_0 ?_
  refine r_get G (C := RX1) (T := TX1) (N := 3) kX1_withoutErrors_X1 78 (cw_LAWS ad κ _) rfl 2 (by decide) mX1_withoutErrors_f21 rfl rfl dX1_withoutErrors_1 ?_
  refine r_iload_n G 1 rfl rfl dX1_withoutErrors_4 ?_
  refine r_aload G 4 rfl dX1_withoutErrors_5 ?_
  refine r_aload G 5 rfl dX1_withoutErrors_7 ?_
  obtain ⟨o1, e1, h⟩ := ob h
  refine r_callSv G [.ref (ad 54), .int p0, .ref (ad p3), .ref (ad p4)] (qX1_make hE 54 (by decide) p0 p3 hp3 p4 hp4 _ e1) gX1_withoutErrors_X1_make rfl hdX1_make ⟨Nat.le_of_ble_eq_true rfl, Nat.le_of_ble_eq_true rfl⟩ (Nat.le_of_ble_eq_true rfl) rfl ⟨Nat.le_of_ble_eq_true rfl, Nat.le_of_ble_eq_true rfl⟩ rfl rfl dX1_withoutErrors_9 (fun s1 hp => ?_)
  have hp := hp.symm
  subst hp
  try dsimp only at h
  refine r_aload_n G 0 rfl rfl dX1_withoutErrors_12 ?_
  refine r_get G (C := RX1) (T := TX1) (N := 3) kX1_withoutErrors_X1 78 (cw_LAWS ad κ _) rfl 0 (by decide) mX1_withoutErrors_f12 rfl rfl dX1_withoutErrors_13 ?_
  refine r_iconst G (v := 2) (by decide) dX1_withoutErrors_16 ?_
  refine r_aload_n G 3 rfl rfl dX1_withoutErrors_17 ?_
  refine r_aload_n G 0 rfl rfl dX1_withoutErrors_18 ?_
  refine r_get G (C := RX1) (T := TX1) (N := 3) kX1_withoutErrors_X1 78 (cw_LAWS ad κ _) rfl 2 (by decide) mX1_withoutErrors_f21 rfl rfl dX1_withoutErrors_19 ?_
  obtain ⟨o2, e2, h⟩ := ob h
  refine r_callSv G [.ref (ad 52), .int 2, .ref (ad p2), .ref (ad 54)] (qX1_make hE 52 (by decide) (2 : Int32) p2 hp2 54 (by decide) _ e2) gX1_withoutErrors_X1_make rfl hdX1_make ⟨Nat.le_of_ble_eq_true rfl, Nat.le_of_ble_eq_true rfl⟩ (Nat.le_of_ble_eq_true rfl) rfl ⟨Nat.le_of_ble_eq_true rfl, Nat.le_of_ble_eq_true rfl⟩ rfl rfl dX1_withoutErrors_22 (fun s2 hp => ?_)
  have hp := hp.symm
  subst hp
  try dsimp only at h
  refine r_aload_n G 0 rfl rfl dX1_withoutErrors_25 ?_
  refine r_get G (C := RX1) (T := TX1) (N := 3) kX1_withoutErrors_X1 78 (cw_LAWS ad κ _) rfl 2 (by decide) mX1_withoutErrors_f21 rfl rfl dX1_withoutErrors_26 ?_
  refine r_iconst G (v := 2) (by decide) dX1_withoutErrors_29 ?_
  refine r_aload_n G 3 rfl rfl dX1_withoutErrors_30 ?_
  refine r_aload G 5 rfl dX1_withoutErrors_31 ?_
  obtain ⟨o3, e3, h⟩ := ob h
  refine r_callSv G [.ref (ad 54), .int 2, .ref (ad p2), .ref (ad p4)] (qX1_make hE 54 (by decide) (2 : Int32) p2 hp2 p4 hp4 _ e3) gX1_withoutErrors_X1_make rfl hdX1_make ⟨Nat.le_of_ble_eq_true rfl, Nat.le_of_ble_eq_true rfl⟩ (Nat.le_of_ble_eq_true rfl) rfl ⟨Nat.le_of_ble_eq_true rfl, Nat.le_of_ble_eq_true rfl⟩ rfl rfl dX1_withoutErrors_33 (fun s3 hp => ?_)
  have hp := hp.symm
  subst hp
  try dsimp only at h
  refine r_aload_n G 0 rfl rfl dX1_withoutErrors_36 ?_
  refine r_get G (C := RX1) (T := TX1) (N := 3) kX1_withoutErrors_X1 78 (cw_LAWS ad κ _) rfl 1 (by decide) mX1_withoutErrors_f18 rfl rfl dX1_withoutErrors_37 ?_
  refine r_iconst G (v := 2) (by decide) dX1_withoutErrors_40 ?_
  refine r_aload_n G 3 rfl rfl dX1_withoutErrors_41 ?_
  refine r_aload G 4 rfl dX1_withoutErrors_42 ?_
  obtain ⟨o4, e4, h⟩ := ob h
  refine r_callSv G [.ref (ad 53), .int 2, .ref (ad p2), .ref (ad p3)] (qX1_make hE 53 (by decide) (2 : Int32) p2 hp2 p3 hp3 _ e4) gX1_withoutErrors_X1_make rfl hdX1_make ⟨Nat.le_of_ble_eq_true rfl, Nat.le_of_ble_eq_true rfl⟩ (Nat.le_of_ble_eq_true rfl) rfl ⟨Nat.le_of_ble_eq_true rfl, Nat.le_of_ble_eq_true rfl⟩ rfl rfl dX1_withoutErrors_44 (fun s4 hp => ?_)
  have hp := hp.symm
  subst hp
  try dsimp only at h
  refine r_aload_n G 0 rfl rfl dX1_withoutErrors_47 ?_
  refine r_get G (C := RX1) (T := TX1) (N := 3) kX1_withoutErrors_X1 78 (cw_LAWS ad κ _) rfl 1 (by decide) mX1_withoutErrors_f18 rfl rfl dX1_withoutErrors_48 ?_
  refine r_iload_n G 2 rfl rfl dX1_withoutErrors_51 ?_
  refine r_aload_n G 0 rfl rfl dX1_withoutErrors_52 ?_
  refine r_get G (C := RX1) (T := TX1) (N := 3) kX1_withoutErrors_X1 78 (cw_LAWS ad κ _) rfl 2 (by decide) mX1_withoutErrors_f21 rfl rfl dX1_withoutErrors_53 ?_
  obtain ⟨o5, e5, h⟩ := ob h
  refine r_callVi G [.int p1, .ref (ad 54)] (qX2_combine hE 53 (by decide) p1 54 (by decide) _ e5) ⟨53, 2, _, _, rfl, (cw_MS ad κ _ (by decide)), rfl⟩ gX1_withoutErrors_X2_combine rfl hdX2_combine ⟨Nat.le_of_ble_eq_true rfl, Nat.le_of_ble_eq_true rfl⟩ (Nat.le_of_ble_eq_true rfl) rfl ⟨Nat.le_of_ble_eq_true rfl, Nat.le_of_ble_eq_true rfl⟩ rfl rfl dX1_withoutErrors_56 (fun r5 s5 hp hn5 => ?_)
  subst hp
  try dsimp only at h
  refine r_pop G rfl dX1_withoutErrors_59 ?_
  refine r_aload_n G 0 rfl rfl dX1_withoutErrors_60 ?_
  refine r_callVi G [] (qX1_sidesDiffer hE _) ⟨78, 1, _, _, rfl, (cw_LAWS ad κ _), rfl⟩ gX1_withoutErrors_X1_sidesDiffer rfl hdX1_sidesDiffer ⟨Nat.le_of_ble_eq_true rfl, Nat.le_of_ble_eq_true rfl⟩ (Nat.le_of_ble_eq_true rfl) rfl ⟨Nat.le_of_ble_eq_true rfl, Nat.le_of_ble_eq_true rfl⟩ rfl rfl dX1_withoutErrors_61 (fun r6 s6 hp hn6 => ?_)
  obtain ⟨rfl, hs⟩ := hp
  have hs := hs.symm
  subst hs
  exact hret _ _ _ _ _ _ dX1_withoutErrors_64 (Option.some.inj h).symm rfl (Nat.le_of_ble_eq_true rfl) (Nat.le_of_ble_eq_true rfl)
abbrev rmX1_withinErrors : Room := { frames := 2, cells := 0, slots := 0, locals := 49 }
set_option maxRecDepth 20000 in
theorem kX1_withinErrors_X1 : ∀ w ∈ u_ws RX1 TX1 3, w ∈ wsX1_withinErrors := by decide +kernel
set_option maxRecDepth 20000 in
theorem mX1_withinErrors_f12 : Cond.fieldLink RX1 12 "SetCouncil$Laws" "left" "LSetCouncil$MemberSet;" ∈ wsX1_withinErrors := by decide +kernel
set_option maxRecDepth 20000 in
theorem mX1_withinErrors_f18 : Cond.fieldLink RX1 18 "SetCouncil$Laws" "right" "LSetCouncil$MemberSet;" ∈ wsX1_withinErrors := by decide +kernel
set_option maxRecDepth 20000 in
theorem mX1_withinErrors_f21 : Cond.fieldLink RX1 21 "SetCouncil$Laws" "part" "LSetCouncil$MemberSet;" ∈ wsX1_withinErrors := by decide +kernel
set_option maxHeartbeats 4000000 in
set_option maxRecDepth 100000 in
theorem qX1_withinErrors {E : evT} {l : Launch} {D : va_G} {ad : Nat → Nat} {κ : Nat → ClassId} (hE : EvOk E) (p0 : Nat) (hp0 : p0 < 55) (p1 : Nat) (hp1 : p1 < 55) (s : cS) {o : (Int32 × cS)} (h : fX1_withinErrors p0 p1 s = some o) : Ci l yX1_withinErrors wsX1_withinErrors rmX1_withinErrors (cW ad κ) E D (tyA κ) .int [.ref (ad 78), .ref (ad p0), .ref (ad p1)] s (fun r s2 => o = (r, s2)) := by
  rw [fX1_withinErrors] at h
  refine s_i (cc := cX1_withinErrors) (nL := 4) (own := RX1) hE (cW_WA ad κ) (plainFor_of_name (by decide)) rfl rfl (Nat.le_of_ble_eq_true rfl) (fun Γ G hret => ?_)
  refine r_aload_n G 2 rfl rfl dX1_withinErrors_0 ?_
  refine r_aload_n G 1 rfl rfl dX1_withinErrors_1 ?_
  refine r_callVi G [.ref (ad p0)] (qX2_holdsAll hE p1 hp1 p0 hp0 _) ⟨p1, 2, _, _, rfl, (cw_MS ad κ _ hp1), rfl⟩ gX1_withinErrors_X2_holdsAll rfl hdX2_holdsAll ⟨Nat.le_of_ble_eq_true rfl, Nat.le_of_ble_eq_true rfl⟩ (Nat.le_of_ble_eq_true rfl) rfl ⟨Nat.le_of_ble_eq_true rfl, Nat.le_of_ble_eq_true rfl⟩ rfl rfl dX1_withinErrors_2 (fun r1 s1 hp hn1 => ?_)
  obtain ⟨rfl, hs⟩ := hp
  have hs := hs.symm
  subst hs
  refine r_istore_n G [1, 2, 3, 0] rfl rfl (by decide) dX1_withinErrors_5 ?_
  refine r_aload_n G 0 rfl rfl dX1_withinErrors_6 ?_
  refine r_get G (C := RX1) (T := TX1) (N := 3) kX1_withinErrors_X1 78 (cw_LAWS ad κ _) rfl 0 (by decide) mX1_withinErrors_f12 rfl rfl dX1_withinErrors_7 ?_
  refine r_iconst G (v := 0) (by decide) dX1_withinErrors_10 ?_
  refine r_aload_n G 1 rfl rfl dX1_withinErrors_11 ?_
  refine r_aload_n G 2 rfl rfl dX1_withinErrors_12 ?_
  obtain ⟨o2, e2, h⟩ := ob h
  refine r_callSv G [.ref (ad 52), .int 0, .ref (ad p0), .ref (ad p1)] (qX1_make hE 52 (by decide) (0 : Int32) p0 hp0 p1 hp1 _ e2) gX1_withinErrors_X1_make rfl hdX1_make ⟨Nat.le_of_ble_eq_true rfl, Nat.le_of_ble_eq_true rfl⟩ (Nat.le_of_ble_eq_true rfl) rfl ⟨Nat.le_of_ble_eq_true rfl, Nat.le_of_ble_eq_true rfl⟩ rfl rfl dX1_withinErrors_13 (fun s2 hp => ?_)
  have hp := hp.symm
  subst hp
  try dsimp only at h
  refine r_aload_n G 0 rfl rfl dX1_withinErrors_16 ?_
  refine r_get G (C := RX1) (T := TX1) (N := 3) kX1_withinErrors_X1 78 (cw_LAWS ad κ _) rfl 1 (by decide) mX1_withinErrors_f18 rfl rfl dX1_withinErrors_17 ?_
  refine r_iconst G (v := 1) (by decide) dX1_withinErrors_20 ?_
  refine r_aload_n G 1 rfl rfl dX1_withinErrors_21 ?_
  refine r_aload_n G 2 rfl rfl dX1_withinErrors_22 ?_
  obtain ⟨o3, e3, h⟩ := ob h
  refine r_callSv G [.ref (ad 53), .int 1, .ref (ad p0), .ref (ad p1)] (qX1_make hE 53 (by decide) (1 : Int32) p0 hp0 p1 hp1 _ e3) gX1_withinErrors_X1_make rfl hdX1_make ⟨Nat.le_of_ble_eq_true rfl, Nat.le_of_ble_eq_true rfl⟩ (Nat.le_of_ble_eq_true rfl) rfl ⟨Nat.le_of_ble_eq_true rfl, Nat.le_of_ble_eq_true rfl⟩ rfl rfl dX1_withinErrors_23 (fun s3 hp => ?_)
  have hp := hp.symm
  subst hp
  try dsimp only at h
  refine r_aload_n G 0 rfl rfl dX1_withinErrors_26 ?_
  refine r_get G (C := RX1) (T := TX1) (N := 3) kX1_withinErrors_X1 78 (cw_LAWS ad κ _) rfl 2 (by decide) mX1_withinErrors_f21 rfl rfl dX1_withinErrors_27 ?_
  refine r_iconst G (v := 2) (by decide) dX1_withinErrors_30 ?_
  refine r_aload_n G 1 rfl rfl dX1_withinErrors_31 ?_
  refine r_aload_n G 2 rfl rfl dX1_withinErrors_32 ?_
  obtain ⟨o4, e4, h⟩ := ob h
  refine r_callSv G [.ref (ad 54), .int 2, .ref (ad p0), .ref (ad p1)] (qX1_make hE 54 (by decide) (2 : Int32) p0 hp0 p1 hp1 _ e4) gX1_withinErrors_X1_make rfl hdX1_make ⟨Nat.le_of_ble_eq_true rfl, Nat.le_of_ble_eq_true rfl⟩ (Nat.le_of_ble_eq_true rfl) rfl ⟨Nat.le_of_ble_eq_true rfl, Nat.le_of_ble_eq_true rfl⟩ rfl rfl dX1_withinErrors_33 (fun s4 hp => ?_)
  have hp := hp.symm
  subst hp
  try dsimp only at h
  refine r_iload_n G 3 rfl rfl dX1_withinErrors_36 ?_
  refine r_aload_n G 0 rfl rfl dX1_withinErrors_37 ?_
  refine r_get G (C := RX1) (T := TX1) (N := 3) kX1_withinErrors_X1 78 (cw_LAWS ad κ _) rfl 0 (by decide) mX1_withinErrors_f12 rfl rfl dX1_withinErrors_38 ?_
  refine r_aload_n G 2 rfl rfl dX1_withinErrors_41 ?_
  refine r_callVi G [.ref (ad p1)] (qX2_sameAs hE 52 (by decide) p1 hp1 _) ⟨52, 2, _, _, rfl, (cw_MS ad κ _ (by decide)), rfl⟩ gX1_withinErrors_X2_sameAs rfl hdX2_sameAs ⟨Nat.le_of_ble_eq_true rfl, Nat.le_of_ble_eq_true rfl⟩ (Nat.le_of_ble_eq_true rfl) rfl ⟨Nat.le_of_ble_eq_true rfl, Nat.le_of_ble_eq_true rfl⟩ rfl rfl dX1_withinErrors_42 (fun r5 s5 hp hn5 => ?_)
  obtain ⟨rfl, hs⟩ := hp
  have hs := hs.symm
  subst hs
  refine r_icmp_ne G (tgt := 52) dX1_withinErrors_45 (by decide) (fun c => ?_) (fun c => ?_)
  · rw [if_neg c] at h
    refine r_iconst G (v := 1) (by decide) dX1_withinErrors_52 ?_
    refine r_iload_n G 3 rfl rfl dX1_withinErrors_53 ?_
    refine r_aload_n G 0 rfl rfl dX1_withinErrors_54 ?_
    refine r_get G (C := RX1) (T := TX1) (N := 3) kX1_withinErrors_X1 78 (cw_LAWS ad κ _) rfl 1 (by decide) mX1_withinErrors_f18 rfl rfl dX1_withinErrors_55 ?_
    refine r_aload_n G 1 rfl rfl dX1_withinErrors_58 ?_
    refine r_callVi G [.ref (ad p0)] (qX2_sameAs hE 53 (by decide) p0 hp0 _) ⟨53, 2, _, _, rfl, (cw_MS ad κ _ (by decide)), rfl⟩ gX1_withinErrors_X2_sameAs rfl hdX2_sameAs ⟨Nat.le_of_ble_eq_true rfl, Nat.le_of_ble_eq_true rfl⟩ (Nat.le_of_ble_eq_true rfl) rfl ⟨Nat.le_of_ble_eq_true rfl, Nat.le_of_ble_eq_true rfl⟩ rfl rfl dX1_withinErrors_59 (fun r6 s6 hp hn6 => ?_)
    obtain ⟨rfl, hs⟩ := hp
    have hs := hs.symm
    subst hs
    refine r_icmp_ne G (tgt := 69) dX1_withinErrors_62 (by decide) (fun c => ?_) (fun c => ?_)
    · rw [if_neg c] at h
      refine r_iconst G (v := 1) (by decide) dX1_withinErrors_69 ?_
      refine r_iadd G dX1_withinErrors_70 ?_
      refine r_iload_n G 3 rfl rfl dX1_withinErrors_71 ?_
      refine r_aload_n G 0 rfl rfl dX1_withinErrors_72 ?_
      refine r_get G (C := RX1) (T := TX1) (N := 3) kX1_withinErrors_X1 78 (cw_LAWS ad κ _) rfl 2 (by decide) mX1_withinErrors_f21 rfl rfl dX1_withinErrors_73 ?_
      refine r_callVi G [] (qX2_count hE 54 (by decide) _) ⟨54, 2, _, _, rfl, (cw_MS ad κ _ (by decide)), rfl⟩ gX1_withinErrors_X2_count rfl hdX2_count ⟨Nat.le_of_ble_eq_true rfl, Nat.le_of_ble_eq_true rfl⟩ (Nat.le_of_ble_eq_true rfl) rfl ⟨Nat.le_of_ble_eq_true rfl, Nat.le_of_ble_eq_true rfl⟩ rfl rfl dX1_withinErrors_76 (fun r7 s7 hp hn7 => ?_)
      obtain ⟨rfl, hs⟩ := hp
      have hs := hs.symm
      subst hs
      refine r_if_ne G (tgt := 86) dX1_withinErrors_79 (by decide) (fun c => ?_) (fun c => ?_)
      · rw [if_neg c] at h
        refine r_iconst G (v := 0) (by decide) dX1_withinErrors_86 ?_
        refine r_icmp_ne G (tgt := 94) dX1_withinErrors_87 (by decide) (fun c => ?_) (fun c => ?_)
        · rw [if_neg c] at h
          refine r_iconst G (v := 1) (by decide) dX1_withinErrors_94 ?_
          refine r_iadd G dX1_withinErrors_95 ?_
          exact hret _ _ _ _ _ _ dX1_withinErrors_96 (Option.some.inj h).symm rfl (Nat.le_of_ble_eq_true rfl) (Nat.le_of_ble_eq_true rfl)
        · rw [if_pos c] at h
          refine r_iconst G (v := 0) (by decide) dX1_withinErrors_90 ?_
          refine r_goto G (tgt := 95) dX1_withinErrors_91 (by decide) ?_
          refine r_iadd G dX1_withinErrors_95 ?_
          exact hret _ _ _ _ _ _ dX1_withinErrors_96 (Option.some.inj h).symm rfl (Nat.le_of_ble_eq_true rfl) (Nat.le_of_ble_eq_true rfl)
      · rw [if_pos c] at h
        refine r_iconst G (v := 1) (by decide) dX1_withinErrors_82 ?_
        refine r_goto G (tgt := 87) dX1_withinErrors_83 (by decide) ?_
        refine r_icmp_ne G (tgt := 94) dX1_withinErrors_87 (by decide) (fun c => ?_) (fun c => ?_)
        · rw [if_neg c] at h
          refine r_iconst G (v := 1) (by decide) dX1_withinErrors_94 ?_
          refine r_iadd G dX1_withinErrors_95 ?_
          exact hret _ _ _ _ _ _ dX1_withinErrors_96 (Option.some.inj h).symm rfl (Nat.le_of_ble_eq_true rfl) (Nat.le_of_ble_eq_true rfl)
        · rw [if_pos c] at h
          refine r_iconst G (v := 0) (by decide) dX1_withinErrors_90 ?_
          refine r_goto G (tgt := 95) dX1_withinErrors_91 (by decide) ?_
          refine r_iadd G dX1_withinErrors_95 ?_
          exact hret _ _ _ _ _ _ dX1_withinErrors_96 (Option.some.inj h).symm rfl (Nat.le_of_ble_eq_true rfl) (Nat.le_of_ble_eq_true rfl)
    · rw [if_pos c] at h
      refine r_iconst G (v := 0) (by decide) dX1_withinErrors_65 ?_
      refine r_goto G (tgt := 70) dX1_withinErrors_66 (by decide) ?_
      refine r_iadd G dX1_withinErrors_70 ?_
      refine r_iload_n G 3 rfl rfl dX1_withinErrors_71 ?_
      refine r_aload_n G 0 rfl rfl dX1_withinErrors_72 ?_
      refine r_get G (C := RX1) (T := TX1) (N := 3) kX1_withinErrors_X1 78 (cw_LAWS ad κ _) rfl 2 (by decide) mX1_withinErrors_f21 rfl rfl dX1_withinErrors_73 ?_
      refine r_callVi G [] (qX2_count hE 54 (by decide) _) ⟨54, 2, _, _, rfl, (cw_MS ad κ _ (by decide)), rfl⟩ gX1_withinErrors_X2_count rfl hdX2_count ⟨Nat.le_of_ble_eq_true rfl, Nat.le_of_ble_eq_true rfl⟩ (Nat.le_of_ble_eq_true rfl) rfl ⟨Nat.le_of_ble_eq_true rfl, Nat.le_of_ble_eq_true rfl⟩ rfl rfl dX1_withinErrors_76 (fun r8 s8 hp hn8 => ?_)
      obtain ⟨rfl, hs⟩ := hp
      have hs := hs.symm
      subst hs
      refine r_if_ne G (tgt := 86) dX1_withinErrors_79 (by decide) (fun c => ?_) (fun c => ?_)
      · rw [if_neg c] at h
        refine r_iconst G (v := 0) (by decide) dX1_withinErrors_86 ?_
        refine r_icmp_ne G (tgt := 94) dX1_withinErrors_87 (by decide) (fun c => ?_) (fun c => ?_)
        · rw [if_neg c] at h
          refine r_iconst G (v := 1) (by decide) dX1_withinErrors_94 ?_
          refine r_iadd G dX1_withinErrors_95 ?_
          exact hret _ _ _ _ _ _ dX1_withinErrors_96 (Option.some.inj h).symm rfl (Nat.le_of_ble_eq_true rfl) (Nat.le_of_ble_eq_true rfl)
        · rw [if_pos c] at h
          refine r_iconst G (v := 0) (by decide) dX1_withinErrors_90 ?_
          refine r_goto G (tgt := 95) dX1_withinErrors_91 (by decide) ?_
          refine r_iadd G dX1_withinErrors_95 ?_
          exact hret _ _ _ _ _ _ dX1_withinErrors_96 (Option.some.inj h).symm rfl (Nat.le_of_ble_eq_true rfl) (Nat.le_of_ble_eq_true rfl)
      · rw [if_pos c] at h
        refine r_iconst G (v := 1) (by decide) dX1_withinErrors_82 ?_
        refine r_goto G (tgt := 87) dX1_withinErrors_83 (by decide) ?_
        refine r_icmp_ne G (tgt := 94) dX1_withinErrors_87 (by decide) (fun c => ?_) (fun c => ?_)
        · rw [if_neg c] at h
          refine r_iconst G (v := 1) (by decide) dX1_withinErrors_94 ?_
          refine r_iadd G dX1_withinErrors_95 ?_
          exact hret _ _ _ _ _ _ dX1_withinErrors_96 (Option.some.inj h).symm rfl (Nat.le_of_ble_eq_true rfl) (Nat.le_of_ble_eq_true rfl)
        · rw [if_pos c] at h
          refine r_iconst G (v := 0) (by decide) dX1_withinErrors_90 ?_
          refine r_goto G (tgt := 95) dX1_withinErrors_91 (by decide) ?_
          refine r_iadd G dX1_withinErrors_95 ?_
          exact hret _ _ _ _ _ _ dX1_withinErrors_96 (Option.some.inj h).symm rfl (Nat.le_of_ble_eq_true rfl) (Nat.le_of_ble_eq_true rfl)
  · rw [if_pos c] at h
    refine r_iconst G (v := 0) (by decide) dX1_withinErrors_48 ?_
    refine r_goto G (tgt := 53) dX1_withinErrors_49 (by decide) ?_
    refine r_iload_n G 3 rfl rfl dX1_withinErrors_53 ?_
    refine r_aload_n G 0 rfl rfl dX1_withinErrors_54 ?_
    refine r_get G (C := RX1) (T := TX1) (N := 3) kX1_withinErrors_X1 78 (cw_LAWS ad κ _) rfl 1 (by decide) mX1_withinErrors_f18 rfl rfl dX1_withinErrors_55 ?_
    refine r_aload_n G 1 rfl rfl dX1_withinErrors_58 ?_
    refine r_callVi G [.ref (ad p0)] (qX2_sameAs hE 53 (by decide) p0 hp0 _) ⟨53, 2, _, _, rfl, (cw_MS ad κ _ (by decide)), rfl⟩ gX1_withinErrors_X2_sameAs rfl hdX2_sameAs ⟨Nat.le_of_ble_eq_true rfl, Nat.le_of_ble_eq_true rfl⟩ (Nat.le_of_ble_eq_true rfl) rfl ⟨Nat.le_of_ble_eq_true rfl, Nat.le_of_ble_eq_true rfl⟩ rfl rfl dX1_withinErrors_59 (fun r9 s9 hp hn9 => ?_)
    obtain ⟨rfl, hs⟩ := hp
    have hs := hs.symm
    subst hs
    refine r_icmp_ne G (tgt := 69) dX1_withinErrors_62 (by decide) (fun c => ?_) (fun c => ?_)
    · rw [if_neg c] at h
      refine r_iconst G (v := 1) (by decide) dX1_withinErrors_69 ?_
      refine r_iadd G dX1_withinErrors_70 ?_
      refine r_iload_n G 3 rfl rfl dX1_withinErrors_71 ?_
      refine r_aload_n G 0 rfl rfl dX1_withinErrors_72 ?_
      refine r_get G (C := RX1) (T := TX1) (N := 3) kX1_withinErrors_X1 78 (cw_LAWS ad κ _) rfl 2 (by decide) mX1_withinErrors_f21 rfl rfl dX1_withinErrors_73 ?_
      refine r_callVi G [] (qX2_count hE 54 (by decide) _) ⟨54, 2, _, _, rfl, (cw_MS ad κ _ (by decide)), rfl⟩ gX1_withinErrors_X2_count rfl hdX2_count ⟨Nat.le_of_ble_eq_true rfl, Nat.le_of_ble_eq_true rfl⟩ (Nat.le_of_ble_eq_true rfl) rfl ⟨Nat.le_of_ble_eq_true rfl, Nat.le_of_ble_eq_true rfl⟩ rfl rfl dX1_withinErrors_76 (fun r10 s10 hp hn10 => ?_)
      obtain ⟨rfl, hs⟩ := hp
      have hs := hs.symm
      subst hs
      refine r_if_ne G (tgt := 86) dX1_withinErrors_79 (by decide) (fun c => ?_) (fun c => ?_)
      · rw [if_neg c] at h
        refine r_iconst G (v := 0) (by decide) dX1_withinErrors_86 ?_
        refine r_icmp_ne G (tgt := 94) dX1_withinErrors_87 (by decide) (fun c => ?_) (fun c => ?_)
        · rw [if_neg c] at h
          refine r_iconst G (v := 1) (by decide) dX1_withinErrors_94 ?_
          refine r_iadd G dX1_withinErrors_95 ?_
          exact hret _ _ _ _ _ _ dX1_withinErrors_96 (Option.some.inj h).symm rfl (Nat.le_of_ble_eq_true rfl) (Nat.le_of_ble_eq_true rfl)
        · rw [if_pos c] at h
          refine r_iconst G (v := 0) (by decide) dX1_withinErrors_90 ?_
          refine r_goto G (tgt := 95) dX1_withinErrors_91 (by decide) ?_
          refine r_iadd G dX1_withinErrors_95 ?_
          exact hret _ _ _ _ _ _ dX1_withinErrors_96 (Option.some.inj h).symm rfl (Nat.le_of_ble_eq_true rfl) (Nat.le_of_ble_eq_true rfl)
      · rw [if_pos c] at h
        refine r_iconst G (v := 1) (by decide) dX1_withinErrors_82 ?_
        refine r_goto G (tgt := 87) dX1_withinErrors_83 (by decide) ?_
        refine r_icmp_ne G (tgt := 94) dX1_withinErrors_87 (by decide) (fun c => ?_) (fun c => ?_)
        · rw [if_neg c] at h
          refine r_iconst G (v := 1) (by decide) dX1_withinErrors_94 ?_
          refine r_iadd G dX1_withinErrors_95 ?_
          exact hret _ _ _ _ _ _ dX1_withinErrors_96 (Option.some.inj h).symm rfl (Nat.le_of_ble_eq_true rfl) (Nat.le_of_ble_eq_true rfl)
        · rw [if_pos c] at h
          refine r_iconst G (v := 0) (by decide) dX1_withinErrors_90 ?_
          refine r_goto G (tgt := 95) dX1_withinErrors_91 (by decide) ?_
          refine r_iadd G dX1_withinErrors_95 ?_
          exact hret _ _ _ _ _ _ dX1_withinErrors_96 (Option.some.inj h).symm rfl (Nat.le_of_ble_eq_true rfl) (Nat.le_of_ble_eq_true rfl)
    · rw [if_pos c] at h
      refine r_iconst G (v := 0) (by decide) dX1_withinErrors_65 ?_
      refine r_goto G (tgt := 70) dX1_withinErrors_66 (by decide) ?_
      refine r_iadd G dX1_withinErrors_70 ?_
      refine r_iload_n G 3 rfl rfl dX1_withinErrors_71 ?_
      refine r_aload_n G 0 rfl rfl dX1_withinErrors_72 ?_
      refine r_get G (C := RX1) (T := TX1) (N := 3) kX1_withinErrors_X1 78 (cw_LAWS ad κ _) rfl 2 (by decide) mX1_withinErrors_f21 rfl rfl dX1_withinErrors_73 ?_
      refine r_callVi G [] (qX2_count hE 54 (by decide) _) ⟨54, 2, _, _, rfl, (cw_MS ad κ _ (by decide)), rfl⟩ gX1_withinErrors_X2_count rfl hdX2_count ⟨Nat.le_of_ble_eq_true rfl, Nat.le_of_ble_eq_true rfl⟩ (Nat.le_of_ble_eq_true rfl) rfl ⟨Nat.le_of_ble_eq_true rfl, Nat.le_of_ble_eq_true rfl⟩ rfl rfl dX1_withinErrors_76 (fun r11 s11 hp hn11 => ?_)
      obtain ⟨rfl, hs⟩ := hp
      have hs := hs.symm
      subst hs
      refine r_if_ne G (tgt := 86) dX1_withinErrors_79 (by decide) (fun c => ?_) (fun c => ?_)
      · rw [if_neg c] at h
        refine r_iconst G (v := 0) (by decide) dX1_withinErrors_86 ?_
        refine r_icmp_ne G (tgt := 94) dX1_withinErrors_87 (by decide) (fun c => ?_) (fun c => ?_)
        · rw [if_neg c] at h
          refine r_iconst G (v := 1) (by decide) dX1_withinErrors_94 ?_
          refine r_iadd G dX1_withinErrors_95 ?_
          exact hret _ _ _ _ _ _ dX1_withinErrors_96 (Option.some.inj h).symm rfl (Nat.le_of_ble_eq_true rfl) (Nat.le_of_ble_eq_true rfl)
        · rw [if_pos c] at h
          refine r_iconst G (v := 0) (by decide) dX1_withinErrors_90 ?_
          refine r_goto G (tgt := 95) dX1_withinErrors_91 (by decide) ?_
          refine r_iadd G dX1_withinErrors_95 ?_
          exact hret _ _ _ _ _ _ dX1_withinErrors_96 (Option.some.inj h).symm rfl (Nat.le_of_ble_eq_true rfl) (Nat.le_of_ble_eq_true rfl)
      · rw [if_pos c] at h
        refine r_iconst G (v := 1) (by decide) dX1_withinErrors_82 ?_
        refine r_goto G (tgt := 87) dX1_withinErrors_83 (by decide) ?_
        refine r_icmp_ne G (tgt := 94) dX1_withinErrors_87 (by decide) (fun c => ?_) (fun c => ?_)
        · rw [if_neg c] at h
          refine r_iconst G (v := 1) (by decide) dX1_withinErrors_94 ?_
          refine r_iadd G dX1_withinErrors_95 ?_
          exact hret _ _ _ _ _ _ dX1_withinErrors_96 (Option.some.inj h).symm rfl (Nat.le_of_ble_eq_true rfl) (Nat.le_of_ble_eq_true rfl)
        · rw [if_pos c] at h
          refine r_iconst G (v := 0) (by decide) dX1_withinErrors_90 ?_
          refine r_goto G (tgt := 95) dX1_withinErrors_91 (by decide) ?_
          refine r_iadd G dX1_withinErrors_95 ?_
          exact hret _ _ _ _ _ _ dX1_withinErrors_96 (Option.some.inj h).symm rfl (Nat.le_of_ble_eq_true rfl) (Nat.le_of_ble_eq_true rfl)
abbrev rmX1_sizeErrors : Room := { frames := 2, cells := 0, slots := 0, locals := 49 }
set_option maxRecDepth 20000 in
theorem kX1_sizeErrors_X1 : ∀ w ∈ u_ws RX1 TX1 3, w ∈ wsX1_sizeErrors := by decide +kernel
set_option maxRecDepth 20000 in
theorem mX1_sizeErrors_f12 : Cond.fieldLink RX1 12 "SetCouncil$Laws" "left" "LSetCouncil$MemberSet;" ∈ wsX1_sizeErrors := by decide +kernel
set_option maxRecDepth 20000 in
theorem mX1_sizeErrors_f18 : Cond.fieldLink RX1 18 "SetCouncil$Laws" "right" "LSetCouncil$MemberSet;" ∈ wsX1_sizeErrors := by decide +kernel
set_option maxHeartbeats 4000000 in
set_option maxRecDepth 100000 in
theorem qX1_sizeErrors {E : evT} {l : Launch} {D : va_G} {ad : Nat → Nat} {κ : Nat → ClassId} (hE : EvOk E) (p0 : Nat) (hp0 : p0 < 55) (p1 : Nat) (hp1 : p1 < 55) (p2 : Nat) (hp2 : p2 < 55) (s : cS) {o : (Int32 × cS)} (h : fX1_sizeErrors p0 p1 p2 s = some o) : Ci l yX1_sizeErrors wsX1_sizeErrors rmX1_sizeErrors (cW ad κ) E D (tyA κ) .int [.ref (ad 78), .ref (ad p0), .ref (ad p1), .ref (ad p2)] s (fun r s2 => o = (r, s2)) := by
  rw [fX1_sizeErrors] at h
  refine s_i (cc := cX1_sizeErrors) (nL := 5) (own := RX1) hE (cW_WA ad κ) (plainFor_of_name (by decide)) rfl rfl (Nat.le_of_ble_eq_true rfl) (fun Γ G hret => ?_)
  refine r_aload_n G 0 rfl rfl dX1_sizeErrors_0 ?_
  refine r_get G (C := RX1) (T := TX1) (N := 3) kX1_sizeErrors_X1 78 (cw_LAWS ad κ _) rfl 0 (by decide) mX1_sizeErrors_f12 rfl rfl dX1_sizeErrors_1 ?_
  refine r_iconst G (v := 0) (by decide) dX1_sizeErrors_4 ?_
  refine r_aload_n G 1 rfl rfl dX1_sizeErrors_5 ?_
  refine r_aload_n G 2 rfl rfl dX1_sizeErrors_6 ?_
  obtain ⟨o1, e1, h⟩ := ob h
  refine r_callSv G [.ref (ad 52), .int 0, .ref (ad p0), .ref (ad p1)] (qX1_make hE 52 (by decide) (0 : Int32) p0 hp0 p1 hp1 _ e1) gX1_sizeErrors_X1_make rfl hdX1_make ⟨Nat.le_of_ble_eq_true rfl, Nat.le_of_ble_eq_true rfl⟩ (Nat.le_of_ble_eq_true rfl) rfl ⟨Nat.le_of_ble_eq_true rfl, Nat.le_of_ble_eq_true rfl⟩ rfl rfl dX1_sizeErrors_7 (fun s1 hp => ?_)
  have hp := hp.symm
  subst hp
  try dsimp only at h
  refine r_aload_n G 0 rfl rfl dX1_sizeErrors_10 ?_
  refine r_get G (C := RX1) (T := TX1) (N := 3) kX1_sizeErrors_X1 78 (cw_LAWS ad κ _) rfl 0 (by decide) mX1_sizeErrors_f12 rfl rfl dX1_sizeErrors_11 ?_
  refine r_iconst G (v := 0) (by decide) dX1_sizeErrors_14 ?_
  refine r_aload_n G 3 rfl rfl dX1_sizeErrors_15 ?_
  obtain ⟨o2, e2, h⟩ := ob h
  refine r_callVi G [.int 0, .ref (ad p2)] (qX2_combine hE 52 (by decide) (0 : Int32) p2 hp2 _ e2) ⟨52, 2, _, _, rfl, (cw_MS ad κ _ (by decide)), rfl⟩ gX1_sizeErrors_X2_combine rfl hdX2_combine ⟨Nat.le_of_ble_eq_true rfl, Nat.le_of_ble_eq_true rfl⟩ (Nat.le_of_ble_eq_true rfl) rfl ⟨Nat.le_of_ble_eq_true rfl, Nat.le_of_ble_eq_true rfl⟩ rfl rfl dX1_sizeErrors_16 (fun r2 s2 hp hn2 => ?_)
  subst hp
  try dsimp only at h
  refine r_pop G rfl dX1_sizeErrors_19 ?_
  refine r_aload_n G 0 rfl rfl dX1_sizeErrors_20 ?_
  refine r_get G (C := RX1) (T := TX1) (N := 3) kX1_sizeErrors_X1 78 (cw_LAWS ad κ _) rfl 1 (by decide) mX1_sizeErrors_f18 rfl rfl dX1_sizeErrors_21 ?_
  refine r_iconst G (v := 1) (by decide) dX1_sizeErrors_24 ?_
  refine r_aload_n G 1 rfl rfl dX1_sizeErrors_25 ?_
  refine r_aload_n G 2 rfl rfl dX1_sizeErrors_26 ?_
  obtain ⟨o3, e3, h⟩ := ob h
  refine r_callSv G [.ref (ad 53), .int 1, .ref (ad p0), .ref (ad p1)] (qX1_make hE 53 (by decide) (1 : Int32) p0 hp0 p1 hp1 _ e3) gX1_sizeErrors_X1_make rfl hdX1_make ⟨Nat.le_of_ble_eq_true rfl, Nat.le_of_ble_eq_true rfl⟩ (Nat.le_of_ble_eq_true rfl) rfl ⟨Nat.le_of_ble_eq_true rfl, Nat.le_of_ble_eq_true rfl⟩ rfl rfl dX1_sizeErrors_27 (fun s3 hp => ?_)
  have hp := hp.symm
  subst hp
  try dsimp only at h
  refine r_aload_n G 1 rfl rfl dX1_sizeErrors_30 ?_
  refine r_callVi G [] (qX2_count hE p0 hp0 _) ⟨p0, 2, _, _, rfl, (cw_MS ad κ _ hp0), rfl⟩ gX1_sizeErrors_X2_count rfl hdX2_count ⟨Nat.le_of_ble_eq_true rfl, Nat.le_of_ble_eq_true rfl⟩ (Nat.le_of_ble_eq_true rfl) rfl ⟨Nat.le_of_ble_eq_true rfl, Nat.le_of_ble_eq_true rfl⟩ rfl rfl dX1_sizeErrors_31 (fun r4 s4 hp hn4 => ?_)
  obtain ⟨rfl, hs⟩ := hp
  have hs := hs.symm
  subst hs
  refine r_aload_n G 2 rfl rfl dX1_sizeErrors_34 ?_
  refine r_callVi G [] (qX2_count hE p1 hp1 _) ⟨p1, 2, _, _, rfl, (cw_MS ad κ _ hp1), rfl⟩ gX1_sizeErrors_X2_count rfl hdX2_count ⟨Nat.le_of_ble_eq_true rfl, Nat.le_of_ble_eq_true rfl⟩ (Nat.le_of_ble_eq_true rfl) rfl ⟨Nat.le_of_ble_eq_true rfl, Nat.le_of_ble_eq_true rfl⟩ rfl rfl dX1_sizeErrors_35 (fun r5 s5 hp hn5 => ?_)
  obtain ⟨rfl, hs⟩ := hp
  have hs := hs.symm
  subst hs
  refine r_iadd G dX1_sizeErrors_38 ?_
  refine r_aload_n G 3 rfl rfl dX1_sizeErrors_39 ?_
  refine r_callVi G [] (qX2_count hE p2 hp2 _) ⟨p2, 2, _, _, rfl, (cw_MS ad κ _ hp2), rfl⟩ gX1_sizeErrors_X2_count rfl hdX2_count ⟨Nat.le_of_ble_eq_true rfl, Nat.le_of_ble_eq_true rfl⟩ (Nat.le_of_ble_eq_true rfl) rfl ⟨Nat.le_of_ble_eq_true rfl, Nat.le_of_ble_eq_true rfl⟩ rfl rfl dX1_sizeErrors_40 (fun r6 s6 hp hn6 => ?_)
  obtain ⟨rfl, hs⟩ := hp
  have hs := hs.symm
  subst hs
  refine r_iadd G dX1_sizeErrors_43 ?_
  refine r_aload_n G 0 rfl rfl dX1_sizeErrors_44 ?_
  refine r_get G (C := RX1) (T := TX1) (N := 3) kX1_sizeErrors_X1 78 (cw_LAWS ad κ _) rfl 1 (by decide) mX1_sizeErrors_f18 rfl rfl dX1_sizeErrors_45 ?_
  refine r_callVi G [] (qX2_count hE 53 (by decide) _) ⟨53, 2, _, _, rfl, (cw_MS ad κ _ (by decide)), rfl⟩ gX1_sizeErrors_X2_count rfl hdX2_count ⟨Nat.le_of_ble_eq_true rfl, Nat.le_of_ble_eq_true rfl⟩ (Nat.le_of_ble_eq_true rfl) rfl ⟨Nat.le_of_ble_eq_true rfl, Nat.le_of_ble_eq_true rfl⟩ rfl rfl dX1_sizeErrors_48 (fun r7 s7 hp hn7 => ?_)
  obtain ⟨rfl, hs⟩ := hp
  have hs := hs.symm
  subst hs
  refine r_isub G dX1_sizeErrors_51 ?_
  refine r_istore G [1, 2, 3, 4, 0] rfl (by decide) dX1_sizeErrors_52 ?_
  refine r_aload_n G 0 rfl rfl dX1_sizeErrors_54 ?_
  refine r_get G (C := RX1) (T := TX1) (N := 3) kX1_sizeErrors_X1 78 (cw_LAWS ad κ _) rfl 1 (by decide) mX1_sizeErrors_f18 rfl rfl dX1_sizeErrors_55 ?_
  refine r_iconst G (v := 1) (by decide) dX1_sizeErrors_58 ?_
  refine r_aload_n G 3 rfl rfl dX1_sizeErrors_59 ?_
  obtain ⟨o8, e8, h⟩ := ob h
  refine r_callVi G [.int 1, .ref (ad p2)] (qX2_combine hE 53 (by decide) (1 : Int32) p2 hp2 _ e8) ⟨53, 2, _, _, rfl, (cw_MS ad κ _ (by decide)), rfl⟩ gX1_sizeErrors_X2_combine rfl hdX2_combine ⟨Nat.le_of_ble_eq_true rfl, Nat.le_of_ble_eq_true rfl⟩ (Nat.le_of_ble_eq_true rfl) rfl ⟨Nat.le_of_ble_eq_true rfl, Nat.le_of_ble_eq_true rfl⟩ rfl rfl dX1_sizeErrors_60 (fun r8 s8 hp hn8 => ?_)
  subst hp
  try dsimp only at h
  refine r_pop G rfl dX1_sizeErrors_63 ?_
  refine r_iload G 4 rfl dX1_sizeErrors_64 ?_
  refine r_aload_n G 0 rfl rfl dX1_sizeErrors_66 ?_
  refine r_get G (C := RX1) (T := TX1) (N := 3) kX1_sizeErrors_X1 78 (cw_LAWS ad κ _) rfl 1 (by decide) mX1_sizeErrors_f18 rfl rfl dX1_sizeErrors_67 ?_
  refine r_callVi G [] (qX2_count hE 53 (by decide) _) ⟨53, 2, _, _, rfl, (cw_MS ad κ _ (by decide)), rfl⟩ gX1_sizeErrors_X2_count rfl hdX2_count ⟨Nat.le_of_ble_eq_true rfl, Nat.le_of_ble_eq_true rfl⟩ (Nat.le_of_ble_eq_true rfl) rfl ⟨Nat.le_of_ble_eq_true rfl, Nat.le_of_ble_eq_true rfl⟩ rfl rfl dX1_sizeErrors_70 (fun r9 s9 hp hn9 => ?_)
  obtain ⟨rfl, hs⟩ := hp
  have hs := hs.symm
  subst hs
  refine r_iadd G dX1_sizeErrors_73 ?_
  refine r_istore G [1, 2, 3, 4, 0] rfl (by decide) dX1_sizeErrors_74 ?_
  refine r_aload_n G 0 rfl rfl dX1_sizeErrors_76 ?_
  refine r_get G (C := RX1) (T := TX1) (N := 3) kX1_sizeErrors_X1 78 (cw_LAWS ad κ _) rfl 1 (by decide) mX1_sizeErrors_f18 rfl rfl dX1_sizeErrors_77 ?_
  refine r_iconst G (v := 1) (by decide) dX1_sizeErrors_80 ?_
  refine r_aload_n G 1 rfl rfl dX1_sizeErrors_81 ?_
  refine r_aload_n G 3 rfl rfl dX1_sizeErrors_82 ?_
  obtain ⟨o10, e10, h⟩ := ob h
  refine r_callSv G [.ref (ad 53), .int 1, .ref (ad p0), .ref (ad p2)] (qX1_make hE 53 (by decide) (1 : Int32) p0 hp0 p2 hp2 _ e10) gX1_sizeErrors_X1_make rfl hdX1_make ⟨Nat.le_of_ble_eq_true rfl, Nat.le_of_ble_eq_true rfl⟩ (Nat.le_of_ble_eq_true rfl) rfl ⟨Nat.le_of_ble_eq_true rfl, Nat.le_of_ble_eq_true rfl⟩ rfl rfl dX1_sizeErrors_83 (fun s10 hp => ?_)
  have hp := hp.symm
  subst hp
  try dsimp only at h
  refine r_iload G 4 rfl dX1_sizeErrors_86 ?_
  refine r_aload_n G 0 rfl rfl dX1_sizeErrors_88 ?_
  refine r_get G (C := RX1) (T := TX1) (N := 3) kX1_sizeErrors_X1 78 (cw_LAWS ad κ _) rfl 1 (by decide) mX1_sizeErrors_f18 rfl rfl dX1_sizeErrors_89 ?_
  refine r_callVi G [] (qX2_count hE 53 (by decide) _) ⟨53, 2, _, _, rfl, (cw_MS ad κ _ (by decide)), rfl⟩ gX1_sizeErrors_X2_count rfl hdX2_count ⟨Nat.le_of_ble_eq_true rfl, Nat.le_of_ble_eq_true rfl⟩ (Nat.le_of_ble_eq_true rfl) rfl ⟨Nat.le_of_ble_eq_true rfl, Nat.le_of_ble_eq_true rfl⟩ rfl rfl dX1_sizeErrors_92 (fun r11 s11 hp hn11 => ?_)
  obtain ⟨rfl, hs⟩ := hp
  have hs := hs.symm
  subst hs
  refine r_isub G dX1_sizeErrors_95 ?_
  refine r_istore G [1, 3, 4, 0] rfl (by decide) dX1_sizeErrors_96 ?_
  refine r_aload_n G 0 rfl rfl dX1_sizeErrors_98 ?_
  refine r_get G (C := RX1) (T := TX1) (N := 3) kX1_sizeErrors_X1 78 (cw_LAWS ad κ _) rfl 1 (by decide) mX1_sizeErrors_f18 rfl rfl dX1_sizeErrors_99 ?_
  refine r_iconst G (v := 1) (by decide) dX1_sizeErrors_102 ?_
  refine r_aload_n G 1 rfl rfl dX1_sizeErrors_103 ?_
  refine r_aload_n G 2 rfl rfl dX1_sizeErrors_104 ?_
  obtain ⟨o12, e12, h⟩ := ob h
  refine r_callSv G [.ref (ad 53), .int 1, .ref (ad p1), .ref (ad p2)] (qX1_make hE 53 (by decide) (1 : Int32) p1 hp1 p2 hp2 _ e12) gX1_sizeErrors_X1_make rfl hdX1_make ⟨Nat.le_of_ble_eq_true rfl, Nat.le_of_ble_eq_true rfl⟩ (Nat.le_of_ble_eq_true rfl) rfl ⟨Nat.le_of_ble_eq_true rfl, Nat.le_of_ble_eq_true rfl⟩ rfl rfl dX1_sizeErrors_105 (fun s12 hp => ?_)
  have hp := hp.symm
  subst hp
  try dsimp only at h
  refine r_iload G 3 rfl dX1_sizeErrors_108 ?_
  refine r_aload_n G 0 rfl rfl dX1_sizeErrors_110 ?_
  refine r_get G (C := RX1) (T := TX1) (N := 3) kX1_sizeErrors_X1 78 (cw_LAWS ad κ _) rfl 1 (by decide) mX1_sizeErrors_f18 rfl rfl dX1_sizeErrors_111 ?_
  refine r_callVi G [] (qX2_count hE 53 (by decide) _) ⟨53, 2, _, _, rfl, (cw_MS ad κ _ (by decide)), rfl⟩ gX1_sizeErrors_X2_count rfl hdX2_count ⟨Nat.le_of_ble_eq_true rfl, Nat.le_of_ble_eq_true rfl⟩ (Nat.le_of_ble_eq_true rfl) rfl ⟨Nat.le_of_ble_eq_true rfl, Nat.le_of_ble_eq_true rfl⟩ rfl rfl dX1_sizeErrors_114 (fun r13 s13 hp hn13 => ?_)
  obtain ⟨rfl, hs⟩ := hp
  have hs := hs.symm
  subst hs
  refine r_isub G dX1_sizeErrors_117 ?_
  refine r_istore G [1, 0] rfl (by decide) dX1_sizeErrors_118 ?_
  refine r_aload_n G 0 rfl rfl dX1_sizeErrors_120 ?_
  refine r_get G (C := RX1) (T := TX1) (N := 3) kX1_sizeErrors_X1 78 (cw_LAWS ad κ _) rfl 0 (by decide) mX1_sizeErrors_f12 rfl rfl dX1_sizeErrors_121 ?_
  refine r_callVi G [] (qX2_count hE 52 (by decide) _) ⟨52, 2, _, _, rfl, (cw_MS ad κ _ (by decide)), rfl⟩ gX1_sizeErrors_X2_count rfl hdX2_count ⟨Nat.le_of_ble_eq_true rfl, Nat.le_of_ble_eq_true rfl⟩ (Nat.le_of_ble_eq_true rfl) rfl ⟨Nat.le_of_ble_eq_true rfl, Nat.le_of_ble_eq_true rfl⟩ rfl rfl dX1_sizeErrors_124 (fun r14 s14 hp hn14 => ?_)
  obtain ⟨rfl, hs⟩ := hp
  have hs := hs.symm
  subst hs
  refine r_iload G 1 rfl dX1_sizeErrors_127 ?_
  refine r_icmp_ne G (tgt := 136) dX1_sizeErrors_129 (by decide) (fun c => ?_) (fun c => ?_)
  · rw [if_neg c] at h
    refine r_iconst G (v := 1) (by decide) dX1_sizeErrors_136 ?_
    exact hret _ _ _ _ _ _ dX1_sizeErrors_137 (Option.some.inj h).symm rfl (Nat.le_of_ble_eq_true rfl) (Nat.le_of_ble_eq_true rfl)
  · rw [if_pos c] at h
    refine r_iconst G (v := 0) (by decide) dX1_sizeErrors_132 ?_
    refine r_goto G (tgt := 137) dX1_sizeErrors_133 (by decide) ?_
    exact hret _ _ _ _ _ _ dX1_sizeErrors_137 (Option.some.inj h).symm rfl (Nat.le_of_ble_eq_true rfl) (Nat.le_of_ble_eq_true rfl)
abbrev rmX1_errorsOf : Room := { frames := 3, cells := 0, slots := 0, locals := 74 }
theorem hdX1_orderErrors : yX1_orderErrors.cls = RX1 ∧ yX1_orderErrors.cls ≠ "java/lang/invoke/MethodHandle" ∧ yX1_orderErrors.cls ≠ "java/lang/invoke/VarHandle" ∧ (parseMethodDescriptor yX1_orderErrors.desc).map (fun d => d.parameters.length) = some 3 := by decide +kernel
theorem hdX1_bracketErrors : yX1_bracketErrors.cls = RX1 ∧ yX1_bracketErrors.cls ≠ "java/lang/invoke/MethodHandle" ∧ yX1_bracketErrors.cls ≠ "java/lang/invoke/VarHandle" ∧ (parseMethodDescriptor yX1_bracketErrors.desc).map (fun d => d.parameters.length) = some 4 := by decide +kernel
theorem hdX1_itselfErrors : yX1_itselfErrors.cls = RX1 ∧ yX1_itselfErrors.cls ≠ "java/lang/invoke/MethodHandle" ∧ yX1_itselfErrors.cls ≠ "java/lang/invoke/VarHandle" ∧ (parseMethodDescriptor yX1_itselfErrors.desc).map (fun d => d.parameters.length) = some 1 := by decide +kernel
theorem hdX1_partErrors : yX1_partErrors.cls = RX1 ∧ yX1_partErrors.cls ≠ "java/lang/invoke/MethodHandle" ∧ yX1_partErrors.cls ≠ "java/lang/invoke/VarHandle" ∧ (parseMethodDescriptor yX1_partErrors.desc).map (fun d => d.parameters.length) = some 5 := by decide +kernel
theorem hdX1_withoutErrors : yX1_withoutErrors.cls = RX1 ∧ yX1_withoutErrors.cls ≠ "java/lang/invoke/MethodHandle" ∧ yX1_withoutErrors.cls ≠ "java/lang/invoke/VarHandle" ∧ (parseMethodDescriptor yX1_withoutErrors.desc).map (fun d => d.parameters.length) = some 5 := by decide +kernel
theorem hdX1_withinErrors : yX1_withinErrors.cls = RX1 ∧ yX1_withinErrors.cls ≠ "java/lang/invoke/MethodHandle" ∧ yX1_withinErrors.cls ≠ "java/lang/invoke/VarHandle" ∧ (parseMethodDescriptor yX1_withinErrors.desc).map (fun d => d.parameters.length) = some 2 := by decide +kernel
theorem hdX1_sizeErrors : yX1_sizeErrors.cls = RX1 ∧ yX1_sizeErrors.cls ≠ "java/lang/invoke/MethodHandle" ∧ yX1_sizeErrors.cls ≠ "java/lang/invoke/VarHandle" ∧ (parseMethodDescriptor yX1_sizeErrors.desc).map (fun d => d.parameters.length) = some 3 := by decide +kernel
set_option maxHeartbeats 4000000 in
set_option maxRecDepth 100000 in
theorem qX1_errorsOf {E : evT} {l : Launch} {D : va_G} {ad : Nat → Nat} {κ : Nat → ClassId} (hE : EvOk E) (p0 : Nat) (hp0 : p0 < 55) (p1 : Nat) (hp1 : p1 < 55) (p2 : Nat) (hp2 : p2 < 55) (s : cS) {o : (Int32 × cS)} (h : fX1_errorsOf p0 p1 p2 s = some o) : Ci l yX1_errorsOf wsX1_errorsOf rmX1_errorsOf (cW ad κ) E D (tyA κ) .int [.ref (ad 78), .ref (ad p0), .ref (ad p1), .ref (ad p2)] s (fun r s2 => o = (r, s2)) := by
  rw [fX1_errorsOf] at h
  refine s_i (cc := cX1_errorsOf) (nL := 4) (own := RX1) hE (cW_WA ad κ) (plainFor_of_name (by decide)) rfl rfl (Nat.le_of_ble_eq_true rfl) (fun Γ G hret => ?_)
  refine r_aload_n G 0 rfl rfl dX1_errorsOf_0 ?_
  refine r_iconst G (v := 0) (by decide) dX1_errorsOf_1 ?_
  refine r_aload_n G 1 rfl rfl dX1_errorsOf_2 ?_
  refine r_aload_n G 2 rfl rfl dX1_errorsOf_3 ?_
  obtain ⟨o1, e1, h⟩ := ob h
  refine r_callVi G [.int 0, .ref (ad p0), .ref (ad p1)] (qX1_orderErrors hE (0 : Int32) p0 hp0 p1 hp1 _ e1) ⟨78, 1, _, _, rfl, (cw_LAWS ad κ _), rfl⟩ gX1_errorsOf_X1_orderErrors rfl hdX1_orderErrors ⟨Nat.le_of_ble_eq_true rfl, Nat.le_of_ble_eq_true rfl⟩ (Nat.le_of_ble_eq_true rfl) rfl ⟨Nat.le_of_ble_eq_true rfl, Nat.le_of_ble_eq_true rfl⟩ rfl rfl dX1_errorsOf_4 (fun r1 s1 hp hn1 => ?_)
  subst hp
  try dsimp only at h
  refine r_aload_n G 0 rfl rfl dX1_errorsOf_7 ?_
  refine r_iconst G (v := 1) (by decide) dX1_errorsOf_8 ?_
  refine r_aload_n G 1 rfl rfl dX1_errorsOf_9 ?_
  refine r_aload_n G 2 rfl rfl dX1_errorsOf_10 ?_
  obtain ⟨o2, e2, h⟩ := ob h
  refine r_callVi G [.int 1, .ref (ad p0), .ref (ad p1)] (qX1_orderErrors hE (1 : Int32) p0 hp0 p1 hp1 _ e2) ⟨78, 1, _, _, rfl, (cw_LAWS ad κ _), rfl⟩ gX1_errorsOf_X1_orderErrors rfl hdX1_orderErrors ⟨Nat.le_of_ble_eq_true rfl, Nat.le_of_ble_eq_true rfl⟩ (Nat.le_of_ble_eq_true rfl) rfl ⟨Nat.le_of_ble_eq_true rfl, Nat.le_of_ble_eq_true rfl⟩ rfl rfl dX1_errorsOf_11 (fun r2 s2 hp hn2 => ?_)
  subst hp
  try dsimp only at h
  refine r_iadd G dX1_errorsOf_14 ?_
  refine r_aload_n G 0 rfl rfl dX1_errorsOf_15 ?_
  refine r_iconst G (v := 0) (by decide) dX1_errorsOf_16 ?_
  refine r_aload_n G 1 rfl rfl dX1_errorsOf_17 ?_
  refine r_aload_n G 2 rfl rfl dX1_errorsOf_18 ?_
  refine r_aload_n G 3 rfl rfl dX1_errorsOf_19 ?_
  obtain ⟨o3, e3, h⟩ := ob h
  refine r_callVi G [.int 0, .ref (ad p0), .ref (ad p1), .ref (ad p2)] (qX1_bracketErrors hE (0 : Int32) p0 hp0 p1 hp1 p2 hp2 _ e3) ⟨78, 1, _, _, rfl, (cw_LAWS ad κ _), rfl⟩ gX1_errorsOf_X1_bracketErrors rfl hdX1_bracketErrors ⟨Nat.le_of_ble_eq_true rfl, Nat.le_of_ble_eq_true rfl⟩ (Nat.le_of_ble_eq_true rfl) rfl ⟨Nat.le_of_ble_eq_true rfl, Nat.le_of_ble_eq_true rfl⟩ rfl rfl dX1_errorsOf_20 (fun r3 s3 hp hn3 => ?_)
  subst hp
  try dsimp only at h
  refine r_iadd G dX1_errorsOf_23 ?_
  refine r_aload_n G 0 rfl rfl dX1_errorsOf_24 ?_
  refine r_iconst G (v := 1) (by decide) dX1_errorsOf_25 ?_
  refine r_aload_n G 1 rfl rfl dX1_errorsOf_26 ?_
  refine r_aload_n G 2 rfl rfl dX1_errorsOf_27 ?_
  refine r_aload_n G 3 rfl rfl dX1_errorsOf_28 ?_
  obtain ⟨o4, e4, h⟩ := ob h
  refine r_callVi G [.int 1, .ref (ad p0), .ref (ad p1), .ref (ad p2)] (qX1_bracketErrors hE (1 : Int32) p0 hp0 p1 hp1 p2 hp2 _ e4) ⟨78, 1, _, _, rfl, (cw_LAWS ad κ _), rfl⟩ gX1_errorsOf_X1_bracketErrors rfl hdX1_bracketErrors ⟨Nat.le_of_ble_eq_true rfl, Nat.le_of_ble_eq_true rfl⟩ (Nat.le_of_ble_eq_true rfl) rfl ⟨Nat.le_of_ble_eq_true rfl, Nat.le_of_ble_eq_true rfl⟩ rfl rfl dX1_errorsOf_29 (fun r4 s4 hp hn4 => ?_)
  subst hp
  try dsimp only at h
  refine r_iadd G dX1_errorsOf_32 ?_
  refine r_aload_n G 0 rfl rfl dX1_errorsOf_33 ?_
  refine r_aload_n G 1 rfl rfl dX1_errorsOf_34 ?_
  obtain ⟨o5, e5, h⟩ := ob h
  refine r_callVi G [.ref (ad p0)] (qX1_itselfErrors hE p0 hp0 _ e5) ⟨78, 1, _, _, rfl, (cw_LAWS ad κ _), rfl⟩ gX1_errorsOf_X1_itselfErrors rfl hdX1_itselfErrors ⟨Nat.le_of_ble_eq_true rfl, Nat.le_of_ble_eq_true rfl⟩ (Nat.le_of_ble_eq_true rfl) rfl ⟨Nat.le_of_ble_eq_true rfl, Nat.le_of_ble_eq_true rfl⟩ rfl rfl dX1_errorsOf_35 (fun r5 s5 hp hn5 => ?_)
  subst hp
  try dsimp only at h
  refine r_iadd G dX1_errorsOf_38 ?_
  refine r_aload_n G 0 rfl rfl dX1_errorsOf_39 ?_
  refine r_iconst G (v := 0) (by decide) dX1_errorsOf_40 ?_
  refine r_iconst G (v := 1) (by decide) dX1_errorsOf_41 ?_
  refine r_aload_n G 1 rfl rfl dX1_errorsOf_42 ?_
  refine r_aload_n G 2 rfl rfl dX1_errorsOf_43 ?_
  refine r_aload_n G 3 rfl rfl dX1_errorsOf_44 ?_
  obtain ⟨o6, e6, h⟩ := ob h
  refine r_callVi G [.int 0, .int 1, .ref (ad p0), .ref (ad p1), .ref (ad p2)] (qX1_partErrors hE (0 : Int32) (1 : Int32) p0 hp0 p1 hp1 p2 hp2 _ e6) ⟨78, 1, _, _, rfl, (cw_LAWS ad κ _), rfl⟩ gX1_errorsOf_X1_partErrors rfl hdX1_partErrors ⟨Nat.le_of_ble_eq_true rfl, Nat.le_of_ble_eq_true rfl⟩ (Nat.le_of_ble_eq_true rfl) rfl ⟨Nat.le_of_ble_eq_true rfl, Nat.le_of_ble_eq_true rfl⟩ rfl rfl dX1_errorsOf_45 (fun r6 s6 hp hn6 => ?_)
  subst hp
  try dsimp only at h
  refine r_iadd G dX1_errorsOf_48 ?_
  refine r_aload_n G 0 rfl rfl dX1_errorsOf_49 ?_
  refine r_iconst G (v := 1) (by decide) dX1_errorsOf_50 ?_
  refine r_iconst G (v := 0) (by decide) dX1_errorsOf_51 ?_
  refine r_aload_n G 1 rfl rfl dX1_errorsOf_52 ?_
  refine r_aload_n G 2 rfl rfl dX1_errorsOf_53 ?_
  refine r_aload_n G 3 rfl rfl dX1_errorsOf_54 ?_
  obtain ⟨o7, e7, h⟩ := ob h
  refine r_callVi G [.int 1, .int 0, .ref (ad p0), .ref (ad p1), .ref (ad p2)] (qX1_partErrors hE (1 : Int32) (0 : Int32) p0 hp0 p1 hp1 p2 hp2 _ e7) ⟨78, 1, _, _, rfl, (cw_LAWS ad κ _), rfl⟩ gX1_errorsOf_X1_partErrors rfl hdX1_partErrors ⟨Nat.le_of_ble_eq_true rfl, Nat.le_of_ble_eq_true rfl⟩ (Nat.le_of_ble_eq_true rfl) rfl ⟨Nat.le_of_ble_eq_true rfl, Nat.le_of_ble_eq_true rfl⟩ rfl rfl dX1_errorsOf_55 (fun r7 s7 hp hn7 => ?_)
  subst hp
  try dsimp only at h
  refine r_iadd G dX1_errorsOf_58 ?_
  refine r_aload_n G 0 rfl rfl dX1_errorsOf_59 ?_
  refine r_iconst G (v := 0) (by decide) dX1_errorsOf_60 ?_
  refine r_iconst G (v := 1) (by decide) dX1_errorsOf_61 ?_
  refine r_aload_n G 1 rfl rfl dX1_errorsOf_62 ?_
  refine r_aload_n G 2 rfl rfl dX1_errorsOf_63 ?_
  refine r_aload_n G 3 rfl rfl dX1_errorsOf_64 ?_
  obtain ⟨o8, e8, h⟩ := ob h
  refine r_callVi G [.int 0, .int 1, .ref (ad p0), .ref (ad p1), .ref (ad p2)] (qX1_withoutErrors hE (0 : Int32) (1 : Int32) p0 hp0 p1 hp1 p2 hp2 _ e8) ⟨78, 1, _, _, rfl, (cw_LAWS ad κ _), rfl⟩ gX1_errorsOf_X1_withoutErrors rfl hdX1_withoutErrors ⟨Nat.le_of_ble_eq_true rfl, Nat.le_of_ble_eq_true rfl⟩ (Nat.le_of_ble_eq_true rfl) rfl ⟨Nat.le_of_ble_eq_true rfl, Nat.le_of_ble_eq_true rfl⟩ rfl rfl dX1_errorsOf_65 (fun r8 s8 hp hn8 => ?_)
  subst hp
  try dsimp only at h
  refine r_iadd G dX1_errorsOf_68 ?_
  refine r_aload_n G 0 rfl rfl dX1_errorsOf_69 ?_
  refine r_iconst G (v := 1) (by decide) dX1_errorsOf_70 ?_
  refine r_iconst G (v := 0) (by decide) dX1_errorsOf_71 ?_
  refine r_aload_n G 1 rfl rfl dX1_errorsOf_72 ?_
  refine r_aload_n G 2 rfl rfl dX1_errorsOf_73 ?_
  refine r_aload_n G 3 rfl rfl dX1_errorsOf_74 ?_
  obtain ⟨o9, e9, h⟩ := ob h
  refine r_callVi G [.int 1, .int 0, .ref (ad p0), .ref (ad p1), .ref (ad p2)] (qX1_withoutErrors hE (1 : Int32) (0 : Int32) p0 hp0 p1 hp1 p2 hp2 _ e9) ⟨78, 1, _, _, rfl, (cw_LAWS ad κ _), rfl⟩ gX1_errorsOf_X1_withoutErrors rfl hdX1_withoutErrors ⟨Nat.le_of_ble_eq_true rfl, Nat.le_of_ble_eq_true rfl⟩ (Nat.le_of_ble_eq_true rfl) rfl ⟨Nat.le_of_ble_eq_true rfl, Nat.le_of_ble_eq_true rfl⟩ rfl rfl dX1_errorsOf_75 (fun r9 s9 hp hn9 => ?_)
  subst hp
  try dsimp only at h
  refine r_iadd G dX1_errorsOf_78 ?_
  refine r_aload_n G 0 rfl rfl dX1_errorsOf_79 ?_
  refine r_aload_n G 1 rfl rfl dX1_errorsOf_80 ?_
  refine r_aload_n G 2 rfl rfl dX1_errorsOf_81 ?_
  obtain ⟨o10, e10, h⟩ := ob h
  refine r_callVi G [.ref (ad p0), .ref (ad p1)] (qX1_withinErrors hE p0 hp0 p1 hp1 _ e10) ⟨78, 1, _, _, rfl, (cw_LAWS ad κ _), rfl⟩ gX1_errorsOf_X1_withinErrors rfl hdX1_withinErrors ⟨Nat.le_of_ble_eq_true rfl, Nat.le_of_ble_eq_true rfl⟩ (Nat.le_of_ble_eq_true rfl) rfl ⟨Nat.le_of_ble_eq_true rfl, Nat.le_of_ble_eq_true rfl⟩ rfl rfl dX1_errorsOf_82 (fun r10 s10 hp hn10 => ?_)
  subst hp
  try dsimp only at h
  refine r_iadd G dX1_errorsOf_85 ?_
  refine r_aload_n G 0 rfl rfl dX1_errorsOf_86 ?_
  refine r_aload_n G 1 rfl rfl dX1_errorsOf_87 ?_
  refine r_aload_n G 2 rfl rfl dX1_errorsOf_88 ?_
  refine r_aload_n G 3 rfl rfl dX1_errorsOf_89 ?_
  obtain ⟨o11, e11, h⟩ := ob h
  refine r_callVi G [.ref (ad p0), .ref (ad p1), .ref (ad p2)] (qX1_sizeErrors hE p0 hp0 p1 hp1 p2 hp2 _ e11) ⟨78, 1, _, _, rfl, (cw_LAWS ad κ _), rfl⟩ gX1_errorsOf_X1_sizeErrors rfl hdX1_sizeErrors ⟨Nat.le_of_ble_eq_true rfl, Nat.le_of_ble_eq_true rfl⟩ (Nat.le_of_ble_eq_true rfl) rfl ⟨Nat.le_of_ble_eq_true rfl, Nat.le_of_ble_eq_true rfl⟩ rfl rfl dX1_errorsOf_90 (fun r11 s11 hp hn11 => ?_)
  subst hp
  try dsimp only at h
  refine r_iadd G dX1_errorsOf_93 ?_
  exact hret _ _ _ _ _ _ dX1_errorsOf_94 (Option.some.inj h).symm rfl (Nat.le_of_ble_eq_true rfl) (Nat.le_of_ble_eq_true rfl)
abbrev rmX1_errorsEachWay : Room := { frames := 4, cells := 0, slots := 0, locals := 97 }
theorem hdX1_errorsOf : yX1_errorsOf.cls = RX1 ∧ yX1_errorsOf.cls ≠ "java/lang/invoke/MethodHandle" ∧ yX1_errorsOf.cls ≠ "java/lang/invoke/VarHandle" ∧ (parseMethodDescriptor yX1_errorsOf.desc).map (fun d => d.parameters.length) = some 3 := by decide +kernel
set_option maxHeartbeats 4000000 in
set_option maxRecDepth 100000 in
theorem qX1_errorsEachWay {E : evT} {l : Launch} {D : va_G} {ad : Nat → Nat} {κ : Nat → ClassId} (hE : EvOk E) (p0 : Nat) (hp0 : p0 < 55) (p1 : Nat) (hp1 : p1 < 55) (p2 : Nat) (hp2 : p2 < 55) (s : cS) {o : (Int32 × cS)} (h : fX1_errorsEachWay p0 p1 p2 s = some o) : Ci l yX1_errorsEachWay wsX1_errorsEachWay rmX1_errorsEachWay (cW ad κ) E D (tyA κ) .int [.ref (ad 78), .ref (ad p0), .ref (ad p1), .ref (ad p2)] s (fun r s2 => o = (r, s2)) := by
  rw [fX1_errorsEachWay] at h
  refine s_i (cc := cX1_errorsEachWay) (nL := 4) (own := RX1) hE (cW_WA ad κ) (plainFor_of_name (by decide)) rfl rfl (Nat.le_of_ble_eq_true rfl) (fun Γ G hret => ?_)
  refine r_aload_n G 0 rfl rfl dX1_errorsEachWay_0 ?_
  refine r_aload_n G 1 rfl rfl dX1_errorsEachWay_1 ?_
  refine r_aload_n G 2 rfl rfl dX1_errorsEachWay_2 ?_
  refine r_aload_n G 3 rfl rfl dX1_errorsEachWay_3 ?_
  obtain ⟨o1, e1, h⟩ := ob h
  refine r_callVi G [.ref (ad p0), .ref (ad p1), .ref (ad p2)] (qX1_errorsOf hE p0 hp0 p1 hp1 p2 hp2 _ e1) ⟨78, 1, _, _, rfl, (cw_LAWS ad κ _), rfl⟩ gX1_errorsEachWay_X1_errorsOf rfl hdX1_errorsOf ⟨Nat.le_of_ble_eq_true rfl, Nat.le_of_ble_eq_true rfl⟩ (Nat.le_of_ble_eq_true rfl) rfl ⟨Nat.le_of_ble_eq_true rfl, Nat.le_of_ble_eq_true rfl⟩ rfl rfl dX1_errorsEachWay_4 (fun r1 s1 hp hn1 => ?_)
  subst hp
  try dsimp only at h
  refine r_aload_n G 0 rfl rfl dX1_errorsEachWay_7 ?_
  refine r_aload_n G 1 rfl rfl dX1_errorsEachWay_8 ?_
  refine r_aload_n G 3 rfl rfl dX1_errorsEachWay_9 ?_
  refine r_aload_n G 2 rfl rfl dX1_errorsEachWay_10 ?_
  obtain ⟨o2, e2, h⟩ := ob h
  refine r_callVi G [.ref (ad p0), .ref (ad p2), .ref (ad p1)] (qX1_errorsOf hE p0 hp0 p2 hp2 p1 hp1 _ e2) ⟨78, 1, _, _, rfl, (cw_LAWS ad κ _), rfl⟩ gX1_errorsEachWay_X1_errorsOf rfl hdX1_errorsOf ⟨Nat.le_of_ble_eq_true rfl, Nat.le_of_ble_eq_true rfl⟩ (Nat.le_of_ble_eq_true rfl) rfl ⟨Nat.le_of_ble_eq_true rfl, Nat.le_of_ble_eq_true rfl⟩ rfl rfl dX1_errorsEachWay_11 (fun r2 s2 hp hn2 => ?_)
  subst hp
  try dsimp only at h
  refine r_iadd G dX1_errorsEachWay_14 ?_
  refine r_aload_n G 0 rfl rfl dX1_errorsEachWay_15 ?_
  refine r_aload_n G 2 rfl rfl dX1_errorsEachWay_16 ?_
  refine r_aload_n G 1 rfl rfl dX1_errorsEachWay_17 ?_
  refine r_aload_n G 3 rfl rfl dX1_errorsEachWay_18 ?_
  obtain ⟨o3, e3, h⟩ := ob h
  refine r_callVi G [.ref (ad p1), .ref (ad p0), .ref (ad p2)] (qX1_errorsOf hE p1 hp1 p0 hp0 p2 hp2 _ e3) ⟨78, 1, _, _, rfl, (cw_LAWS ad κ _), rfl⟩ gX1_errorsEachWay_X1_errorsOf rfl hdX1_errorsOf ⟨Nat.le_of_ble_eq_true rfl, Nat.le_of_ble_eq_true rfl⟩ (Nat.le_of_ble_eq_true rfl) rfl ⟨Nat.le_of_ble_eq_true rfl, Nat.le_of_ble_eq_true rfl⟩ rfl rfl dX1_errorsEachWay_19 (fun r3 s3 hp hn3 => ?_)
  subst hp
  try dsimp only at h
  refine r_iadd G dX1_errorsEachWay_22 ?_
  refine r_aload_n G 0 rfl rfl dX1_errorsEachWay_23 ?_
  refine r_aload_n G 2 rfl rfl dX1_errorsEachWay_24 ?_
  refine r_aload_n G 3 rfl rfl dX1_errorsEachWay_25 ?_
  refine r_aload_n G 1 rfl rfl dX1_errorsEachWay_26 ?_
  obtain ⟨o4, e4, h⟩ := ob h
  refine r_callVi G [.ref (ad p1), .ref (ad p2), .ref (ad p0)] (qX1_errorsOf hE p1 hp1 p2 hp2 p0 hp0 _ e4) ⟨78, 1, _, _, rfl, (cw_LAWS ad κ _), rfl⟩ gX1_errorsEachWay_X1_errorsOf rfl hdX1_errorsOf ⟨Nat.le_of_ble_eq_true rfl, Nat.le_of_ble_eq_true rfl⟩ (Nat.le_of_ble_eq_true rfl) rfl ⟨Nat.le_of_ble_eq_true rfl, Nat.le_of_ble_eq_true rfl⟩ rfl rfl dX1_errorsEachWay_27 (fun r4 s4 hp hn4 => ?_)
  subst hp
  try dsimp only at h
  refine r_iadd G dX1_errorsEachWay_30 ?_
  refine r_aload_n G 0 rfl rfl dX1_errorsEachWay_31 ?_
  refine r_aload_n G 3 rfl rfl dX1_errorsEachWay_32 ?_
  refine r_aload_n G 1 rfl rfl dX1_errorsEachWay_33 ?_
  refine r_aload_n G 2 rfl rfl dX1_errorsEachWay_34 ?_
  obtain ⟨o5, e5, h⟩ := ob h
  refine r_callVi G [.ref (ad p2), .ref (ad p0), .ref (ad p1)] (qX1_errorsOf hE p2 hp2 p0 hp0 p1 hp1 _ e5) ⟨78, 1, _, _, rfl, (cw_LAWS ad κ _), rfl⟩ gX1_errorsEachWay_X1_errorsOf rfl hdX1_errorsOf ⟨Nat.le_of_ble_eq_true rfl, Nat.le_of_ble_eq_true rfl⟩ (Nat.le_of_ble_eq_true rfl) rfl ⟨Nat.le_of_ble_eq_true rfl, Nat.le_of_ble_eq_true rfl⟩ rfl rfl dX1_errorsEachWay_35 (fun r5 s5 hp hn5 => ?_)
  subst hp
  try dsimp only at h
  refine r_iadd G dX1_errorsEachWay_38 ?_
  refine r_aload_n G 0 rfl rfl dX1_errorsEachWay_39 ?_
  refine r_aload_n G 3 rfl rfl dX1_errorsEachWay_40 ?_
  refine r_aload_n G 2 rfl rfl dX1_errorsEachWay_41 ?_
  refine r_aload_n G 1 rfl rfl dX1_errorsEachWay_42 ?_
  obtain ⟨o6, e6, h⟩ := ob h
  refine r_callVi G [.ref (ad p2), .ref (ad p1), .ref (ad p0)] (qX1_errorsOf hE p2 hp2 p1 hp1 p0 hp0 _ e6) ⟨78, 1, _, _, rfl, (cw_LAWS ad κ _), rfl⟩ gX1_errorsEachWay_X1_errorsOf rfl hdX1_errorsOf ⟨Nat.le_of_ble_eq_true rfl, Nat.le_of_ble_eq_true rfl⟩ (Nat.le_of_ble_eq_true rfl) rfl ⟨Nat.le_of_ble_eq_true rfl, Nat.le_of_ble_eq_true rfl⟩ rfl rfl dX1_errorsEachWay_43 (fun r6 s6 hp hn6 => ?_)
  subst hp
  try dsimp only at h
  refine r_iadd G dX1_errorsEachWay_46 ?_
  exact hret _ _ _ _ _ _ dX1_errorsEachWay_47 (Option.some.inj h).symm rfl (Nat.le_of_ble_eq_true rfl) (Nat.le_of_ble_eq_true rfl)
