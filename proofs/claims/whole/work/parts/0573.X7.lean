abbrev rmX7_textLength : Room := { frames := 1, cells := 0, slots := 0, locals := 20 }
set_option maxRecDepth 20000 in
theorem kX7_textLength_X7 : ∀ w ∈ u_ws RX7 TX7 8, w ∈ wsX7_textLength := by decide +kernel
set_option maxRecDepth 20000 in
theorem mX7_textLength_f42 : Cond.fieldLink RX7 42 "SetCouncil" "text" "LSetCouncil$Text;" ∈ wsX7_textLength := by decide +kernel
set_option maxHeartbeats 4000000 in
set_option maxRecDepth 100000 in
theorem qX7_textLength {E : evT} {l : Launch} {D : va_G} {ad : Nat → Nat} {κ : Nat → ClassId} (hE : EvOk E) (s : cS) : Ci l yX7_textLength wsX7_textLength rmX7_textLength (cW ad κ) E D (tyA κ) .int [.ref (ad 55)] s (fun r s2 => r = fX7_textLength s ∧ s2 = s) := by
  obtain ⟨o, h⟩ : ∃ o, fX7_textLength s = o := ⟨_, rfl⟩
  rw [h]
  rw [fX7_textLength] at h
  refine s_i (cc := cX7_textLength) (nL := 1) (own := RX7) hE (cW_WA ad κ) (plainFor_of_name (by decide)) rfl rfl (Nat.le_of_ble_eq_true rfl) (fun Γ G hret => ?_)
  refine r_aload_n G 0 rfl rfl dX7_textLength_0 ?_
  refine r_get G (C := RX7) (T := TX7) (N := 8) kX7_textLength_X7 55 (cw_SC ad κ _) rfl 5 (by decide) mX7_textLength_f42 rfl rfl dX7_textLength_1 ?_
  refine r_callVi G [] (qX4_length hE _) ⟨70, 4, _, _, rfl, (cw_TEXT ad κ _), rfl⟩ gX7_textLength_X4_length rfl hdX4_length ⟨Nat.le_of_ble_eq_true rfl, Nat.le_of_ble_eq_true rfl⟩ (Nat.le_of_ble_eq_true rfl) rfl ⟨Nat.le_of_ble_eq_true rfl, Nat.le_of_ble_eq_true rfl⟩ rfl rfl dX7_textLength_4 (fun r1 s1 hp hn1 => ?_)
  obtain ⟨rfl, hs⟩ := hp
  have hs := hs.symm
  subst hs
  exact hret _ _ _ _ _ _ dX7_textLength_7 ⟨h, rfl⟩ rfl (Nat.le_of_ble_eq_true rfl) (Nat.le_of_ble_eq_true rfl)
abbrev rmX7_errorKind : Room := { frames := 6, cells := 0, slots := 0, locals := 132 }
set_option maxRecDepth 20000 in
theorem kX7_errorKind_X7 : ∀ w ∈ u_ws RX7 TX7 8, w ∈ wsX7_errorKind := by decide +kernel
set_option maxRecDepth 20000 in
theorem mX7_errorKind_f51 : Cond.fieldLink RX7 51 "SetCouncil" "reader" "LSetCouncil$Reader;" ∈ wsX7_errorKind := by decide +kernel
set_option maxRecDepth 20000 in
theorem mX7_errorKind_f11 : Cond.fieldLink RX7 11 "SetCouncil" "sets" "[LSetCouncil$MemberSet;" ∈ wsX7_errorKind := by decide +kernel
theorem hdX3_read : yX3_read.cls = RX3 ∧ yX3_read.cls ≠ "java/lang/invoke/MethodHandle" ∧ yX3_read.cls ≠ "java/lang/invoke/VarHandle" ∧ (parseMethodDescriptor yX3_read.desc).map (fun d => d.parameters.length) = some 1 := by decide +kernel
theorem hdX3_kind : yX3_kind.cls = RX3 ∧ yX3_kind.cls ≠ "java/lang/invoke/MethodHandle" ∧ yX3_kind.cls ≠ "java/lang/invoke/VarHandle" ∧ (parseMethodDescriptor yX3_kind.desc).map (fun d => d.parameters.length) = some 0 := by decide +kernel
set_option maxHeartbeats 4000000 in
set_option maxRecDepth 100000 in
theorem qX7_errorKind {E : evT} {l : Launch} {D : va_G} {ad : Nat → Nat} {κ : Nat → ClassId} (hE : EvOk E) (s : cS) {o : (Int32 × cS)} (h : fX7_errorKind s = some o) : Ci l yX7_errorKind wsX7_errorKind rmX7_errorKind (cW ad κ) E D (tyA κ) .int [.ref (ad 55)] s (fun r s2 => o = (r, s2)) := by
  rw [fX7_errorKind] at h
  refine s_i (cc := cX7_errorKind) (nL := 1) (own := RX7) hE (cW_WA ad κ) (plainFor_of_name (by decide)) rfl rfl (Nat.le_of_ble_eq_true rfl) (fun Γ G hret => ?_)
  refine r_aload_n G 0 rfl rfl dX7_errorKind_0 ?_
  refine r_get G (C := RX7) (T := TX7) (N := 8) kX7_errorKind_X7 55 (cw_SC ad κ _) rfl 6 (by decide) mX7_errorKind_f51 rfl rfl dX7_errorKind_1 ?_
  refine r_aload_n G 0 rfl rfl dX7_errorKind_4 ?_
  refine r_get G (C := RX7) (T := TX7) (N := 8) kX7_errorKind_X7 55 (cw_SC ad κ _) rfl 0 (by decide) mX7_errorKind_f11 rfl rfl dX7_errorKind_5 ?_
  obtain ⟨o1, e1, h⟩ := ob h
  refine r_callVv G [.ref (ad 56)] (qX3_read hE _ e1) ⟨72, 3, _, _, rfl, (cw_READER ad κ _), rfl⟩ gX7_errorKind_X3_read rfl hdX3_read ⟨Nat.le_of_ble_eq_true rfl, Nat.le_of_ble_eq_true rfl⟩ (Nat.le_of_ble_eq_true rfl) rfl ⟨Nat.le_of_ble_eq_true rfl, Nat.le_of_ble_eq_true rfl⟩ rfl rfl dX7_errorKind_8 (fun s1 hp => ?_)
  have hp := hp.symm
  subst hp
  try dsimp only at h
  refine r_aload_n G 0 rfl rfl dX7_errorKind_11 ?_
  refine r_get G (C := RX7) (T := TX7) (N := 8) kX7_errorKind_X7 55 (cw_SC ad κ _) rfl 6 (by decide) mX7_errorKind_f51 rfl rfl dX7_errorKind_12 ?_
  refine r_callVi G [] (qX3_kind hE _) ⟨72, 3, _, _, rfl, (cw_READER ad κ _), rfl⟩ gX7_errorKind_X3_kind rfl hdX3_kind ⟨Nat.le_of_ble_eq_true rfl, Nat.le_of_ble_eq_true rfl⟩ (Nat.le_of_ble_eq_true rfl) rfl ⟨Nat.le_of_ble_eq_true rfl, Nat.le_of_ble_eq_true rfl⟩ rfl rfl dX7_errorKind_15 (fun r2 s2 hp hn2 => ?_)
  obtain ⟨rfl, hs⟩ := hp
  have hs := hs.symm
  subst hs
  exact hret _ _ _ _ _ _ dX7_errorKind_18 (Option.some.inj h).symm rfl (Nat.le_of_ble_eq_true rfl) (Nat.le_of_ble_eq_true rfl)
abbrev rmX7_errorPlace : Room := { frames := 6, cells := 0, slots := 0, locals := 132 }
set_option maxRecDepth 20000 in
theorem kX7_errorPlace_X7 : ∀ w ∈ u_ws RX7 TX7 8, w ∈ wsX7_errorPlace := by decide +kernel
set_option maxRecDepth 20000 in
theorem mX7_errorPlace_f51 : Cond.fieldLink RX7 51 "SetCouncil" "reader" "LSetCouncil$Reader;" ∈ wsX7_errorPlace := by decide +kernel
set_option maxRecDepth 20000 in
theorem mX7_errorPlace_f11 : Cond.fieldLink RX7 11 "SetCouncil" "sets" "[LSetCouncil$MemberSet;" ∈ wsX7_errorPlace := by decide +kernel
theorem hdX3_place : yX3_place.cls = RX3 ∧ yX3_place.cls ≠ "java/lang/invoke/MethodHandle" ∧ yX3_place.cls ≠ "java/lang/invoke/VarHandle" ∧ (parseMethodDescriptor yX3_place.desc).map (fun d => d.parameters.length) = some 0 := by decide +kernel
set_option maxHeartbeats 4000000 in
set_option maxRecDepth 100000 in
theorem qX7_errorPlace {E : evT} {l : Launch} {D : va_G} {ad : Nat → Nat} {κ : Nat → ClassId} (hE : EvOk E) (s : cS) {o : (Int32 × cS)} (h : fX7_errorPlace s = some o) : Ci l yX7_errorPlace wsX7_errorPlace rmX7_errorPlace (cW ad κ) E D (tyA κ) .int [.ref (ad 55)] s (fun r s2 => o = (r, s2)) := by
  rw [fX7_errorPlace] at h
  refine s_i (cc := cX7_errorPlace) (nL := 1) (own := RX7) hE (cW_WA ad κ) (plainFor_of_name (by decide)) rfl rfl (Nat.le_of_ble_eq_true rfl) (fun Γ G hret => ?_)
  refine r_aload_n G 0 rfl rfl dX7_errorPlace_0 ?_
  refine r_get G (C := RX7) (T := TX7) (N := 8) kX7_errorPlace_X7 55 (cw_SC ad κ _) rfl 6 (by decide) mX7_errorPlace_f51 rfl rfl dX7_errorPlace_1 ?_
  refine r_aload_n G 0 rfl rfl dX7_errorPlace_4 ?_
  refine r_get G (C := RX7) (T := TX7) (N := 8) kX7_errorPlace_X7 55 (cw_SC ad κ _) rfl 0 (by decide) mX7_errorPlace_f11 rfl rfl dX7_errorPlace_5 ?_
  obtain ⟨o1, e1, h⟩ := ob h
  refine r_callVv G [.ref (ad 56)] (qX3_read hE _ e1) ⟨72, 3, _, _, rfl, (cw_READER ad κ _), rfl⟩ gX7_errorPlace_X3_read rfl hdX3_read ⟨Nat.le_of_ble_eq_true rfl, Nat.le_of_ble_eq_true rfl⟩ (Nat.le_of_ble_eq_true rfl) rfl ⟨Nat.le_of_ble_eq_true rfl, Nat.le_of_ble_eq_true rfl⟩ rfl rfl dX7_errorPlace_8 (fun s1 hp => ?_)
  have hp := hp.symm
  subst hp
  try dsimp only at h
  refine r_aload_n G 0 rfl rfl dX7_errorPlace_11 ?_
  refine r_get G (C := RX7) (T := TX7) (N := 8) kX7_errorPlace_X7 55 (cw_SC ad κ _) rfl 6 (by decide) mX7_errorPlace_f51 rfl rfl dX7_errorPlace_12 ?_
  refine r_callVi G [] (qX3_place hE _) ⟨72, 3, _, _, rfl, (cw_READER ad κ _), rfl⟩ gX7_errorPlace_X3_place rfl hdX3_place ⟨Nat.le_of_ble_eq_true rfl, Nat.le_of_ble_eq_true rfl⟩ (Nat.le_of_ble_eq_true rfl) rfl ⟨Nat.le_of_ble_eq_true rfl, Nat.le_of_ble_eq_true rfl⟩ rfl rfl dX7_errorPlace_15 (fun r2 s2 hp hn2 => ?_)
  obtain ⟨rfl, hs⟩ := hp
  have hs := hs.symm
  subst hs
  exact hret _ _ _ _ _ _ dX7_errorPlace_18 (Option.some.inj h).symm rfl (Nat.le_of_ble_eq_true rfl) (Nat.le_of_ble_eq_true rfl)
abbrev rmX7_run : Room := { frames := 6, cells := 1, slots := 6, locals := 132 }
set_option maxRecDepth 20000 in
theorem kX7_run_X7 : ∀ w ∈ u_ws RX7 TX7 8, w ∈ wsX7_run := by decide +kernel
set_option maxRecDepth 20000 in
theorem mX7_run_f51 : Cond.fieldLink RX7 51 "SetCouncil" "reader" "LSetCouncil$Reader;" ∈ wsX7_run := by decide +kernel
set_option maxRecDepth 20000 in
theorem mX7_run_f11 : Cond.fieldLink RX7 11 "SetCouncil" "sets" "[LSetCouncil$MemberSet;" ∈ wsX7_run := by decide +kernel
theorem hdX3_tellSets : yX3_tellSets.cls = RX3 ∧ yX3_tellSets.cls ≠ "java/lang/invoke/MethodHandle" ∧ yX3_tellSets.cls ≠ "java/lang/invoke/VarHandle" ∧ (parseMethodDescriptor yX3_tellSets.desc).map (fun d => d.parameters.length) = some 1 := by decide +kernel
theorem hdX3_statements : yX3_statements.cls = RX3 ∧ yX3_statements.cls ≠ "java/lang/invoke/MethodHandle" ∧ yX3_statements.cls ≠ "java/lang/invoke/VarHandle" ∧ (parseMethodDescriptor yX3_statements.desc).map (fun d => d.parameters.length) = some 0 := by decide +kernel
set_option maxRecDepth 20000 in
theorem mX7_run_k152 : Cond.classLink RX7 152 "java/lang/IllegalStateException" ∈ wsX7_run := by decide +kernel
set_option maxRecDepth 20000 in
theorem mX7_run_i4 : Cond.initialized "java/lang/IllegalStateException" ∈ wsX7_run := by decide +kernel
set_option maxRecDepth 20000 in
theorem tX7_run_156 : ∀ w ∈ (vx_atS RX7 156 "java/lang/IllegalStateException" ["java/lang/RuntimeException", "java/lang/Exception"]).filter goodWord, w ∈ wsX7_run := by decide +kernel
theorem sX7_226 : (RX7, 226, "the text has an error") ∈ thS := by decide +kernel
set_option maxHeartbeats 4000000 in
set_option maxRecDepth 100000 in
theorem qX7_run {E : evT} {l : Launch} {D : va_G} {ad : Nat → Nat} {κ : Nat → ClassId} (hE : EvOk E) (hT : TOk E) (hfl : l.stackTraces = false) (s : cS) {o : ((Nat × cS) ⊕ (Int32 × cS))} (h : fX7_run s = some o) : Xi l yX7_run wsX7_run rmX7_run (cW ad κ) E D (tyA κ) .int [.ref (ad 55)] s (fun r s2 => o = .inr (r, s2)) (fun e s2 => o = .inl (e, s2)) := by
  rw [fX7_run] at h
  refine s_xi (cc := cX7_run) (nL := 1) (own := RX7) hE (cW_WA ad κ) (by decide) rfl rfl (Nat.le_of_ble_eq_true rfl) (fun Γ Qc G X9 hret => ?_)
  refine r_aload_n G 0 rfl rfl dX7_run_0 ?_
  refine r_get G (C := RX7) (T := TX7) (N := 8) kX7_run_X7 55 (cw_SC ad κ _) rfl 6 (by decide) mX7_run_f51 rfl rfl dX7_run_1 ?_
  refine r_aload_n G 0 rfl rfl dX7_run_4 ?_
  refine r_get G (C := RX7) (T := TX7) (N := 8) kX7_run_X7 55 (cw_SC ad κ _) rfl 0 (by decide) mX7_run_f11 rfl rfl dX7_run_5 ?_
  obtain ⟨o1, e1, h⟩ := ob h
  refine r_callVv G [.ref (ad 56)] (qX3_read hE _ e1) ⟨72, 3, _, _, rfl, (cw_READER ad κ _), rfl⟩ gX7_run_X3_read rfl hdX3_read ⟨Nat.le_of_ble_eq_true rfl, Nat.le_of_ble_eq_true rfl⟩ (Nat.le_of_ble_eq_true rfl) rfl ⟨Nat.le_of_ble_eq_true rfl, Nat.le_of_ble_eq_true rfl⟩ rfl rfl dX7_run_8 (fun s1 hp => ?_)
  have hp := hp.symm
  subst hp
  try dsimp only at h
  refine r_aload_n G 0 rfl rfl dX7_run_11 ?_
  refine r_get G (C := RX7) (T := TX7) (N := 8) kX7_run_X7 55 (cw_SC ad κ _) rfl 6 (by decide) mX7_run_f51 rfl rfl dX7_run_12 ?_
  refine r_callVi G [] (qX3_kind hE _) ⟨72, 3, _, _, rfl, (cw_READER ad κ _), rfl⟩ gX7_run_X3_kind rfl hdX3_kind ⟨Nat.le_of_ble_eq_true rfl, Nat.le_of_ble_eq_true rfl⟩ (Nat.le_of_ble_eq_true rfl) rfl ⟨Nat.le_of_ble_eq_true rfl, Nat.le_of_ble_eq_true rfl⟩ rfl rfl dX7_run_15 (fun r2 s2 hp hn2 => ?_)
  obtain ⟨rfl, hs⟩ := hp
  have hs := hs.symm
  subst hs
  refine r_if_eq G (tgt := 31) dX7_run_18 (by decide) (fun c => ?_) (fun c => ?_)
  · rw [if_pos c] at h
    refine r_aload_n G 0 rfl rfl dX7_run_31 ?_
    refine r_get G (C := RX7) (T := TX7) (N := 8) kX7_run_X7 55 (cw_SC ad κ _) rfl 6 (by decide) mX7_run_f51 rfl rfl dX7_run_32 ?_
    refine r_aload_n G 0 rfl rfl dX7_run_35 ?_
    refine r_get G (C := RX7) (T := TX7) (N := 8) kX7_run_X7 55 (cw_SC ad κ _) rfl 0 (by decide) mX7_run_f11 rfl rfl dX7_run_36 ?_
    obtain ⟨o3, e3, h⟩ := ob h
    refine r_callVv G [.ref (ad 56)] (qX3_tellSets hE _ e3) ⟨72, 3, _, _, rfl, (cw_READER ad κ _), rfl⟩ gX7_run_X3_tellSets rfl hdX3_tellSets ⟨Nat.le_of_ble_eq_true rfl, Nat.le_of_ble_eq_true rfl⟩ (Nat.le_of_ble_eq_true rfl) rfl ⟨Nat.le_of_ble_eq_true rfl, Nat.le_of_ble_eq_true rfl⟩ rfl rfl dX7_run_39 (fun s3 hp => ?_)
    have hp := hp.symm
    subst hp
    try dsimp only at h
    refine r_aload_n G 0 rfl rfl dX7_run_42 ?_
    refine r_get G (C := RX7) (T := TX7) (N := 8) kX7_run_X7 55 (cw_SC ad κ _) rfl 6 (by decide) mX7_run_f51 rfl rfl dX7_run_43 ?_
    refine r_callVi G [] (qX3_statements hE _) ⟨72, 3, _, _, rfl, (cw_READER ad κ _), rfl⟩ gX7_run_X3_statements rfl hdX3_statements ⟨Nat.le_of_ble_eq_true rfl, Nat.le_of_ble_eq_true rfl⟩ (Nat.le_of_ble_eq_true rfl) rfl ⟨Nat.le_of_ble_eq_true rfl, Nat.le_of_ble_eq_true rfl⟩ rfl rfl dX7_run_46 (fun r4 s4 hp hn4 => ?_)
    obtain ⟨rfl, hs⟩ := hp
    have hs := hs.symm
    subst hs
    exact hret _ _ _ _ _ _ dX7_run_49 (Option.some.inj h).symm rfl (Nat.le_of_ble_eq_true rfl) (Nat.le_of_ble_eq_true rfl)
  · rw [if_neg c] at h
    exact r_throw G X9 hT hfl (k := 4) (by decide) mX7_run_k152 mX7_run_i4 tX7_run_156 oX7_156 bX7_156 sX7_226 dX7_run_21 dX7_run_24 dX7_run_25 dX7_run_27 dX7_run_30 (Option.some.inj h).symm (Nat.le_of_ble_eq_true rfl) (Nat.le_of_ble_eq_true rfl) (Nat.le_of_ble_eq_true rfl) (Nat.le_of_ble_eq_true rfl)
abbrev rmX7_viewAt : Room := { frames := 6, cells := 1, slots := 6, locals := 92 }
set_option maxRecDepth 20000 in
theorem mX7_viewAt_k263 : Cond.classLink RX7 263 "java/lang/IndexOutOfBoundsException" ∈ wsX7_viewAt := by decide +kernel
set_option maxRecDepth 20000 in
theorem mX7_viewAt_i1 : Cond.initialized "java/lang/IndexOutOfBoundsException" ∈ wsX7_viewAt := by decide +kernel
set_option maxRecDepth 20000 in
theorem tX7_viewAt_267 : ∀ w ∈ (vx_atS RX7 267 "java/lang/IndexOutOfBoundsException" ["java/lang/RuntimeException", "java/lang/Exception"]).filter goodWord, w ∈ wsX7_viewAt := by decide +kernel
set_option maxRecDepth 20000 in
theorem kX7_viewAt_X7 : ∀ w ∈ u_ws RX7 TX7 8, w ∈ wsX7_viewAt := by decide +kernel
set_option maxRecDepth 20000 in
theorem mX7_viewAt_f17 : Cond.fieldLink RX7 17 "SetCouncil" "views" "[LSetCouncil$View;" ∈ wsX7_viewAt := by decide +kernel
set_option maxHeartbeats 4000000 in
set_option maxRecDepth 100000 in
theorem qX7_viewAt {E : evT} {l : Launch} {D : va_G} {ad : Nat → Nat} {κ : Nat → ClassId} (hE : EvOk E) (hT : TOk E) (hfl : l.stackTraces = false) (p0 : Int32) (s : cS) {o : ((Nat × cS) ⊕ (Nat × cS))} (h : fX7_viewAt p0 s = some o) : Xr l yX7_viewAt wsX7_viewAt rmX7_viewAt (cW ad κ) E D (tyA κ) ad [.ref (ad 55), .int p0] s (fun r s2 => o = .inr (r, s2)) (fun e s2 => o = .inl (e, s2)) := by
  rw [fX7_viewAt] at h
  refine s_xr (cc := cX7_viewAt) (nL := 2) (own := RX7) hE (cW_WA ad κ) (by decide) rfl rfl (Nat.le_of_ble_eq_true rfl) (fun Γ Qc G X9 hret => ?_)
  refine r_iload_n G 1 rfl rfl dX7_viewAt_0 ?_
  refine r_if_lt G (tgt := 13) dX7_viewAt_1 (by decide) (fun c => ?_) (fun c => ?_)
  · rw [if_pos c] at h
    exact r_throwW G X9 hT hfl (k := 1) (by decide) mX7_viewAt_k263 mX7_viewAt_i1 tX7_viewAt_267 oX7_267 bX7_267 sX7_265 dX7_viewAt_13 dX7_viewAt_16 dX7_viewAt_17 dX7_viewAt_20 dX7_viewAt_23 (Option.some.inj h).symm (Nat.le_of_ble_eq_true rfl) (Nat.le_of_ble_eq_true rfl) (Nat.le_of_ble_eq_true rfl) (Nat.le_of_ble_eq_true rfl)
  · rw [if_neg c] at h
    refine r_iload_n G 1 rfl rfl dX7_viewAt_4 ?_
    refine r_aload_n G 0 rfl rfl dX7_viewAt_5 ?_
    refine r_get G (C := RX7) (T := TX7) (N := 8) kX7_viewAt_X7 55 (cw_SC ad κ _) rfl 1 (by decide) mX7_viewAt_f17 rfl rfl dX7_viewAt_6 ?_
    refine r_alen G 57 1 (cw_VIEWS ad κ _) rfl (v := 8) rfl dX7_viewAt_9 ?_
    refine r_icmp_lt G (tgt := 24) dX7_viewAt_10 (by decide) (fun c => ?_) (fun c => ?_)
    · rw [if_pos c] at h
      refine r_aload_n G 0 rfl rfl dX7_viewAt_24 ?_
      refine r_get G (C := RX7) (T := TX7) (N := 8) kX7_viewAt_X7 55 (cw_SC ad κ _) rfl 1 (by decide) mX7_viewAt_f17 rfl rfl dX7_viewAt_25 ?_
      refine r_iload_n G 1 rfl rfl dX7_viewAt_28 ?_
      obtain ⟨g1, h⟩ := og h
      refine r_aldq G 57 1 (cw_VIEWS ad κ _) rfl (vin_in g1) rfl dX7_viewAt_29 ?_
      exact hret _ _ _ _ _ _ dX7_viewAt_30 (Option.some.inj h).symm (Nat.le_of_ble_eq_true rfl) (Nat.le_of_ble_eq_true rfl)
    · rw [if_neg c] at h
      exact r_throwW G X9 hT hfl (k := 1) (by decide) mX7_viewAt_k263 mX7_viewAt_i1 tX7_viewAt_267 oX7_267 bX7_267 sX7_265 dX7_viewAt_13 dX7_viewAt_16 dX7_viewAt_17 dX7_viewAt_20 dX7_viewAt_23 (Option.some.inj h).symm (Nat.le_of_ble_eq_true rfl) (Nat.le_of_ble_eq_true rfl) (Nat.le_of_ble_eq_true rfl) (Nat.le_of_ble_eq_true rfl)
abbrev rmX7_viewHas : Room := { frames := 7, cells := 2, slots := 12, locals := 113 }
theorem hdX7_viewAt : yX7_viewAt.cls = RX7 ∧ yX7_viewAt.cls ≠ "java/lang/invoke/MethodHandle" ∧ yX7_viewAt.cls ≠ "java/lang/invoke/VarHandle" ∧ (parseMethodDescriptor yX7_viewAt.desc).map (fun d => d.parameters.length) = some 1 := by decide +kernel
theorem hdX5_shows : yX5_shows.cls = RX5 ∧ yX5_shows.cls ≠ "java/lang/invoke/MethodHandle" ∧ yX5_shows.cls ≠ "java/lang/invoke/VarHandle" ∧ (parseMethodDescriptor yX5_shows.desc).map (fun d => d.parameters.length) = some 1 := by decide +kernel
set_option maxHeartbeats 4000000 in
set_option maxRecDepth 100000 in
theorem qX7_viewHas {E : evT} {l : Launch} {D : va_G} {ad : Nat → Nat} {κ : Nat → ClassId} (hE : EvOk E) (hT : TOk E) (hfl : l.stackTraces = false) (p0 : Int32) (p1 : Int32) (s : cS) {o : ((Nat × cS) ⊕ (Int32 × cS))} (h : fX7_viewHas p0 p1 s = some o) : Xi l yX7_viewHas wsX7_viewHas rmX7_viewHas (cW ad κ) E D (tyA κ) .boolean [.ref (ad 55), .int p0, .int p1] s (fun r s2 => o = .inr (r, s2)) (fun e s2 => o = .inl (e, s2)) := by
  rw [fX7_viewHas] at h
  refine s_xi (cc := cX7_viewHas) (nL := 4) (own := RX7) hE (cW_WA ad κ) (by decide) rfl rfl (Nat.le_of_ble_eq_true rfl) (fun Γ Qc G X9 hret => ?_)
  refine r_aload_n G 0 rfl rfl dX7_viewHas_0 ?_
  refine r_iload_n G 1 rfl rfl dX7_viewHas_1 ?_
  obtain ⟨o1, e1, h⟩ := ob h
  refine r_callVrx G [.int p0] (qX7_viewAt hE hT hfl p0 _ e1) ⟨55, 7, _, _, rfl, (cw_SC ad κ _), rfl⟩ gX7_viewHas_X7_viewAt rfl hdX7_viewAt ⟨Nat.le_of_ble_eq_true rfl, Nat.le_of_ble_eq_true rfl⟩ (Nat.le_of_ble_eq_true rfl) rfl ⟨Nat.le_of_ble_eq_true rfl, Nat.le_of_ble_eq_true rfl⟩ rfl rfl dX7_viewHas_2 (fun k9 st9 hp9 => by subst hp9; exact r_out G X9 (fun _ hx => nomatch hx) (Option.some.inj h).symm (Nat.le_of_ble_eq_true rfl) (Nat.le_of_ble_eq_true rfl)) (fun r1 s1 hp => ?_)
  subst hp
  try dsimp only [Sum.elim_inr] at h
  obtain ⟨g2, h⟩ := og h
  refine r_astore_n G [3, 0] rfl rfl (by decide) dX7_viewHas_5 ?_
  refine r_aload_n G 1 rfl rfl dX7_viewHas_6 ?_
  refine r_iload_n G 0 rfl rfl dX7_viewHas_7 ?_
  obtain ⟨o3, e3, h⟩ := ob h
  refine r_callSix G [.int p1] (qX7_indexOfMember hE hT hfl p1 _ e3) gX7_viewHas_X7_indexOfMember rfl hdX7_indexOfMember ⟨Nat.le_of_ble_eq_true rfl, Nat.le_of_ble_eq_true rfl⟩ (Nat.le_of_ble_eq_true rfl) rfl ⟨Nat.le_of_ble_eq_true rfl, Nat.le_of_ble_eq_true rfl⟩ rfl rfl dX7_viewHas_8 (fun k9 st9 hp9 => by subst hp9; exact r_out G X9 (fun _ hx => nomatch hx) (Option.some.inj h).symm (Nat.le_of_ble_eq_true rfl) (Nat.le_of_ble_eq_true rfl)) (fun r3 s3 hp hn3 => ?_)
  subst hp
  try dsimp only [Sum.elim_inr] at h
  refine r_callVi G [.int r3] (qX5_shows hE r1 g2 r3 _) ⟨r1, 5, _, _, rfl, (cw_VIEWv ad κ _ g2), rfl⟩ gX7_viewHas_X5_shows rfl hdX5_shows ⟨Nat.le_of_ble_eq_true rfl, Nat.le_of_ble_eq_true rfl⟩ (Nat.le_of_ble_eq_true rfl) rfl ⟨Nat.le_of_ble_eq_true rfl, Nat.le_of_ble_eq_true rfl⟩ rfl rfl dX7_viewHas_11 (fun r4 s4 hp hn4 => ?_)
  obtain ⟨rfl, hs⟩ := hp
  have hs := hs.symm
  subst hs
  exact hret _ _ _ _ _ _ dX7_viewHas_14 (Option.some.inj h).symm hn4 (Nat.le_of_ble_eq_true rfl) (Nat.le_of_ble_eq_true rfl)
abbrev rmX7_lawErrors : Room := { frames := 7, cells := 3, slots := 18, locals := 120 }
set_option maxRecDepth 20000 in
theorem kX7_lawErrors_X7 : ∀ w ∈ u_ws RX7 TX7 8, w ∈ wsX7_lawErrors := by decide +kernel
set_option maxRecDepth 20000 in
theorem mX7_lawErrors_f58 : Cond.fieldLink RX7 58 "SetCouncil" "laws" "LSetCouncil$Laws;" ∈ wsX7_lawErrors := by decide +kernel
theorem hdX1_errorsEachWay : yX1_errorsEachWay.cls = RX1 ∧ yX1_errorsEachWay.cls ≠ "java/lang/invoke/MethodHandle" ∧ yX1_errorsEachWay.cls ≠ "java/lang/invoke/VarHandle" ∧ (parseMethodDescriptor yX1_errorsEachWay.desc).map (fun d => d.parameters.length) = some 3 := by decide +kernel
set_option maxHeartbeats 4000000 in
set_option maxRecDepth 100000 in
theorem qX7_lawErrors {E : evT} {l : Launch} {D : va_G} {ad : Nat → Nat} {κ : Nat → ClassId} (hE : EvOk E) (hT : TOk E) (hfl : l.stackTraces = false) (p0 : Int32) (p1 : Int32) (p2 : Int32) (s : cS) {o : ((Nat × cS) ⊕ (Int32 × cS))} (h : fX7_lawErrors p0 p1 p2 s = some o) : Xi l yX7_lawErrors wsX7_lawErrors rmX7_lawErrors (cW ad κ) E D (tyA κ) .int [.ref (ad 55), .int p0, .int p1, .int p2] s (fun r s2 => o = .inr (r, s2)) (fun e s2 => o = .inl (e, s2)) := by
  rw [fX7_lawErrors] at h
  refine s_xi (cc := cX7_lawErrors) (nL := 7) (own := RX7) hE (cW_WA ad κ) (by decide) rfl rfl (Nat.le_of_ble_eq_true rfl) (fun Γ Qc G X9 hret => ?_)
  refine r_aload_n G 0 rfl rfl dX7_lawErrors_0 ?_
  refine r_iload_n G 1 rfl rfl dX7_lawErrors_1 ?_
  obtain ⟨o1, e1, h⟩ := ob h
  refine r_callVrx G [.int p0] (qX7_setAt hE hT hfl p0 _ e1) ⟨55, 7, _, _, rfl, (cw_SC ad κ _), rfl⟩ gX7_lawErrors_X7_setAt rfl hdX7_setAt ⟨Nat.le_of_ble_eq_true rfl, Nat.le_of_ble_eq_true rfl⟩ (Nat.le_of_ble_eq_true rfl) rfl ⟨Nat.le_of_ble_eq_true rfl, Nat.le_of_ble_eq_true rfl⟩ rfl rfl dX7_lawErrors_2 (fun k9 st9 hp9 => by subst hp9; exact r_out G X9 (fun _ hx => nomatch hx) (Option.some.inj h).symm (Nat.le_of_ble_eq_true rfl) (Nat.le_of_ble_eq_true rfl)) (fun r1 s1 hp => ?_)
  subst hp
  try dsimp only [Sum.elim_inr] at h
  obtain ⟨g2, h⟩ := og h
  refine r_astore G [1, 3, 4, 0] rfl (by decide) dX7_lawErrors_5 ?_
  refine r_aload_n G 0 rfl rfl dX7_lawErrors_7 ?_
  refine r_iload_n G 1 rfl rfl dX7_lawErrors_8 ?_
  obtain ⟨o3, e3, h⟩ := ob h
  refine r_callVrx G [.int p1] (qX7_setAt hE hT hfl p1 _ e3) ⟨55, 7, _, _, rfl, (cw_SC ad κ _), rfl⟩ gX7_lawErrors_X7_setAt rfl hdX7_setAt ⟨Nat.le_of_ble_eq_true rfl, Nat.le_of_ble_eq_true rfl⟩ (Nat.le_of_ble_eq_true rfl) rfl ⟨Nat.le_of_ble_eq_true rfl, Nat.le_of_ble_eq_true rfl⟩ rfl rfl dX7_lawErrors_9 (fun k9 st9 hp9 => by subst hp9; exact r_out G X9 (fun _ hx => nomatch hx) (Option.some.inj h).symm (Nat.le_of_ble_eq_true rfl) (Nat.le_of_ble_eq_true rfl)) (fun r3 s3 hp => ?_)
  subst hp
  try dsimp only [Sum.elim_inr] at h
  obtain ⟨g4, h⟩ := og h
  refine r_astore G [1, 3, 4, 0] rfl (by decide) dX7_lawErrors_12 ?_
  refine r_aload_n G 0 rfl rfl dX7_lawErrors_14 ?_
  refine r_iload_n G 1 rfl rfl dX7_lawErrors_15 ?_
  obtain ⟨o5, e5, h⟩ := ob h
  refine r_callVrx G [.int p2] (qX7_setAt hE hT hfl p2 _ e5) ⟨55, 7, _, _, rfl, (cw_SC ad κ _), rfl⟩ gX7_lawErrors_X7_setAt rfl hdX7_setAt ⟨Nat.le_of_ble_eq_true rfl, Nat.le_of_ble_eq_true rfl⟩ (Nat.le_of_ble_eq_true rfl) rfl ⟨Nat.le_of_ble_eq_true rfl, Nat.le_of_ble_eq_true rfl⟩ rfl rfl dX7_lawErrors_16 (fun k9 st9 hp9 => by subst hp9; exact r_out G X9 (fun _ hx => nomatch hx) (Option.some.inj h).symm (Nat.le_of_ble_eq_true rfl) (Nat.le_of_ble_eq_true rfl)) (fun r5 s5 hp => ?_)
  subst hp
  try dsimp only [Sum.elim_inr] at h
  obtain ⟨g6, h⟩ := og h
  refine r_astore G [1, 3, 4, 0] rfl (by decide) dX7_lawErrors_19 ?_
  refine r_aload_n G 0 rfl rfl dX7_lawErrors_21 ?_
  refine r_get G (C := RX7) (T := TX7) (N := 8) kX7_lawErrors_X7 55 (cw_SC ad κ _) rfl 7 (by decide) mX7_lawErrors_f58 rfl rfl dX7_lawErrors_22 ?_
  refine r_aload G 1 rfl dX7_lawErrors_25 ?_
  refine r_aload G 2 rfl dX7_lawErrors_27 ?_
  refine r_aload G 3 rfl dX7_lawErrors_29 ?_
  obtain ⟨o7, e7, h⟩ := ob h
  refine r_callVi G [.ref (ad r1), .ref (ad r3), .ref (ad r5)] (qX1_errorsEachWay hE r1 g2 r3 g4 r5 g6 _ e7) ⟨78, 1, _, _, rfl, (cw_LAWS ad κ _), rfl⟩ gX7_lawErrors_X1_errorsEachWay rfl hdX1_errorsEachWay ⟨Nat.le_of_ble_eq_true rfl, Nat.le_of_ble_eq_true rfl⟩ (Nat.le_of_ble_eq_true rfl) rfl ⟨Nat.le_of_ble_eq_true rfl, Nat.le_of_ble_eq_true rfl⟩ rfl rfl dX7_lawErrors_31 (fun r7 s7 hp hn7 => ?_)
  subst hp
  try dsimp only at h
  exact hret _ _ _ _ _ _ dX7_lawErrors_34 (Option.some.inj h).symm rfl (Nat.le_of_ble_eq_true rfl) (Nat.le_of_ble_eq_true rfl)
abbrev rmX7_familyErrors : Room := { frames := 4, cells := 0, slots := 0, locals := 97 }
set_option maxRecDepth 20000 in
theorem kX7_familyErrors_X7 : ∀ w ∈ u_ws RX7 TX7 8, w ∈ wsX7_familyErrors := by decide +kernel
set_option maxRecDepth 20000 in
theorem mX7_familyErrors_f28 : Cond.fieldLink RX7 28 "SetCouncil" "family" "LSetCouncil$Family;" ∈ wsX7_familyErrors := by decide +kernel
theorem hdX0_errors : yX0_errors.cls = RX0 ∧ yX0_errors.cls ≠ "java/lang/invoke/MethodHandle" ∧ yX0_errors.cls ≠ "java/lang/invoke/VarHandle" ∧ (parseMethodDescriptor yX0_errors.desc).map (fun d => d.parameters.length) = some 0 := by decide +kernel
set_option maxHeartbeats 4000000 in
set_option maxRecDepth 100000 in
theorem qX7_familyErrors {E : evT} {l : Launch} {D : va_G} {ad : Nat → Nat} {κ : Nat → ClassId} (hE : EvOk E) (s : cS) {o : (Int32 × cS)} (h : fX7_familyErrors s = some o) : Ci l yX7_familyErrors wsX7_familyErrors rmX7_familyErrors (cW ad κ) E D (tyA κ) .int [.ref (ad 55)] s (fun r s2 => o = (r, s2)) := by
  rw [fX7_familyErrors] at h
  refine s_i (cc := cX7_familyErrors) (nL := 1) (own := RX7) hE (cW_WA ad κ) (plainFor_of_name (by decide)) rfl rfl (Nat.le_of_ble_eq_true rfl) (fun Γ G hret => ?_)
  refine r_aload_n G 0 rfl rfl dX7_familyErrors_0 ?_
  refine r_get G (C := RX7) (T := TX7) (N := 8) kX7_familyErrors_X7 55 (cw_SC ad κ _) rfl 2 (by decide) mX7_familyErrors_f28 rfl rfl dX7_familyErrors_1 ?_
  obtain ⟨o1, e1, h⟩ := ob h
  refine r_callVi G [] (qX0_errors hE 0 (by decide) _ e1) ⟨(66 + 0), 0, _, _, rfl, (cw_FAM ad κ _ (by decide)), rfl⟩ gX7_familyErrors_X0_errors rfl hdX0_errors ⟨Nat.le_of_ble_eq_true rfl, Nat.le_of_ble_eq_true rfl⟩ (Nat.le_of_ble_eq_true rfl) rfl ⟨Nat.le_of_ble_eq_true rfl, Nat.le_of_ble_eq_true rfl⟩ rfl rfl dX7_familyErrors_4 (fun r1 s1 hp hn1 => ?_)
  subst hp
  try dsimp only at h
  exact hret _ _ _ _ _ _ dX7_familyErrors_7 (Option.some.inj h).symm rfl (Nat.le_of_ble_eq_true rfl) (Nat.le_of_ble_eq_true rfl)
