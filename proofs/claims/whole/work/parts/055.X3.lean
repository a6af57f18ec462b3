abbrev rmX3_kind : Room := { frames := 0, cells := 0, slots := 0, locals := 0 }
set_option maxRecDepth 20000 in
theorem kX3_kind_X3 : ∀ w ∈ u_ws RX3 TX3 15, w ∈ wsX3_kind := by decide +kernel
set_option maxRecDepth 20000 in
theorem mX3_kind_f44 : Cond.fieldLink RX3 44 "SetCouncil$Reader" "kind" "I" ∈ wsX3_kind := by decide +kernel
set_option maxHeartbeats 4000000 in
set_option maxRecDepth 100000 in
theorem qX3_kind {E : evT} {l : Launch} {D : va_G} {ad : Nat → Nat} {κ : Nat → ClassId} (hE : EvOk E) (s : cS) : Ci l yX3_kind wsX3_kind rmX3_kind (cW ad κ) E D (tyA κ) .int [.ref (ad 72)] s (fun r s2 => r = fX3_kind s ∧ s2 = s) := by
  obtain ⟨o, h⟩ : ∃ o, fX3_kind s = o := ⟨_, rfl⟩
  rw [h]
  rw [fX3_kind] at h
  refine s_i (cc := cX3_kind) (nL := 1) (own := RX3) hE (cW_WA ad κ) (plainFor_of_name (by decide)) rfl rfl (Nat.le_of_ble_eq_true rfl) (fun Γ G hret => ?_)
  refine r_aload_n G 0 rfl rfl dX3_kind_0 ?_
  refine r_get G (C := RX3) (T := TX3) (N := 15) kX3_kind_X3 72 (cw_READER ad κ _) rfl 13 (by decide) mX3_kind_f44 rfl rfl dX3_kind_1 ?_
  exact hret _ _ _ _ _ _ dX3_kind_4 ⟨h, rfl⟩ rfl (Nat.le_of_ble_eq_true rfl) (Nat.le_of_ble_eq_true rfl)
abbrev rmX3_place : Room := { frames := 0, cells := 0, slots := 0, locals := 0 }
set_option maxRecDepth 20000 in
theorem kX3_place_X3 : ∀ w ∈ u_ws RX3 TX3 15, w ∈ wsX3_place := by decide +kernel
set_option maxRecDepth 20000 in
theorem mX3_place_f40 : Cond.fieldLink RX3 40 "SetCouncil$Reader" "place" "I" ∈ wsX3_place := by decide +kernel
set_option maxHeartbeats 4000000 in
set_option maxRecDepth 100000 in
theorem qX3_place {E : evT} {l : Launch} {D : va_G} {ad : Nat → Nat} {κ : Nat → ClassId} (hE : EvOk E) (s : cS) : Ci l yX3_place wsX3_place rmX3_place (cW ad κ) E D (tyA κ) .int [.ref (ad 72)] s (fun r s2 => r = fX3_place s ∧ s2 = s) := by
  obtain ⟨o, h⟩ : ∃ o, fX3_place s = o := ⟨_, rfl⟩
  rw [h]
  rw [fX3_place] at h
  refine s_i (cc := cX3_place) (nL := 1) (own := RX3) hE (cW_WA ad κ) (plainFor_of_name (by decide)) rfl rfl (Nat.le_of_ble_eq_true rfl) (fun Γ G hret => ?_)
  refine r_aload_n G 0 rfl rfl dX3_place_0 ?_
  refine r_get G (C := RX3) (T := TX3) (N := 15) kX3_place_X3 72 (cw_READER ad κ _) rfl 14 (by decide) mX3_place_f40 rfl rfl dX3_place_1 ?_
  exact hret _ _ _ _ _ _ dX3_place_4 ⟨h, rfl⟩ rfl (Nat.le_of_ble_eq_true rfl) (Nat.le_of_ble_eq_true rfl)
abbrev rmX3_statements : Room := { frames := 0, cells := 0, slots := 0, locals := 0 }
set_option maxRecDepth 20000 in
theorem kX3_statements_X3 : ∀ w ∈ u_ws RX3 TX3 15, w ∈ wsX3_statements := by decide +kernel
set_option maxRecDepth 20000 in
theorem mX3_statements_f47 : Cond.fieldLink RX3 47 "SetCouncil$Reader" "statements" "I" ∈ wsX3_statements := by decide +kernel
set_option maxHeartbeats 4000000 in
set_option maxRecDepth 100000 in
theorem qX3_statements {E : evT} {l : Launch} {D : va_G} {ad : Nat → Nat} {κ : Nat → ClassId} (hE : EvOk E) (s : cS) : Ci l yX3_statements wsX3_statements rmX3_statements (cW ad κ) E D (tyA κ) .int [.ref (ad 72)] s (fun r s2 => r = fX3_statements s ∧ s2 = s) := by
  obtain ⟨o, h⟩ : ∃ o, fX3_statements s = o := ⟨_, rfl⟩
  rw [h]
  rw [fX3_statements] at h
  refine s_i (cc := cX3_statements) (nL := 1) (own := RX3) hE (cW_WA ad κ) (plainFor_of_name (by decide)) rfl rfl (Nat.le_of_ble_eq_true rfl) (fun Γ G hret => ?_)
  refine r_aload_n G 0 rfl rfl dX3_statements_0 ?_
  refine r_get G (C := RX3) (T := TX3) (N := 15) kX3_statements_X3 72 (cw_READER ad κ _) rfl 12 (by decide) mX3_statements_f47 rfl rfl dX3_statements_1 ?_
  exact hret _ _ _ _ _ _ dX3_statements_4 ⟨h, rfl⟩ rfl (Nat.le_of_ble_eq_true rfl) (Nat.le_of_ble_eq_true rfl)
abbrev rmX3_tellSets : Room := { frames := 1, cells := 0, slots := 0, locals := 21 }
set_option maxRecDepth 20000 in
theorem kX3_tellSets_X3 : ∀ w ∈ u_ws RX3 TX3 15, w ∈ wsX3_tellSets := by decide +kernel
set_option maxRecDepth 20000 in
theorem mX3_tellSets_f17 : Cond.fieldLink RX3 17 "SetCouncil$Reader" "named" "[LSetCouncil$MemberSet;" ∈ wsX3_tellSets := by decide +kernel
set_option maxHeartbeats 4000000 in
set_option maxRecDepth 100000 in
theorem wX3_tellSets_L2 {E : evT} {l : Launch} {D : va_G} {ad : Nat → Nat} {κ : Nat → ClassId} (hE : EvOk E) {Γ : cxT} (G : Cx (cW ad κ) D (tyA κ) E l Γ cX3_tellSets RX3 wsX3_tellSets 3 rmX3_tellSets) {o : (cS)} (hret : ∀ (st2 : cS) (cells slots pc : Nat) (lv : List (Nat × Value)), decode cX3_tellSets pc = .ok (.return_, 1) → o = st2 → cells ≤ rmX3_tellSets.cells → slots ≤ rmX3_tellSets.slots → V (cW ad κ) D Γ st2 cells slots pc lv []) : ∀ (fuel : Nat) (x2 : Int32) (s : cS), fX3_tellSets_L2 fuel x2 s = some o → V (cW ad κ) D Γ s 0 0 2 [(0, .ref (ad 72)), (1, .ref (ad 56)), (2, .int x2)] [] := by
  intro fuel
  induction fuel with
  | zero =>
    intro _ _ h
    have h : none = some o := h
    cases h
  | succ fuel ih =>
    intro x2 s h
    rw [fX3_tellSets_L2] at h
    refine r_iload_n G 2 rfl rfl dX3_tellSets_2 ?_
    refine r_aload_n G 1 rfl rfl dX3_tellSets_3 ?_
    refine r_alen G 56 0 (cw_SETS ad κ _) rfl (v := 8) rfl dX3_tellSets_4 ?_
    refine r_icmp_ge G (tgt := 35) dX3_tellSets_5 (by decide) (fun c => ?_) (fun c => ?_)
    · rw [if_pos c] at h
      exact hret _ _ _ _ _ dX3_tellSets_35 (Option.some.inj h).symm (Nat.le_of_ble_eq_true rfl) (Nat.le_of_ble_eq_true rfl)
    · rw [if_neg c] at h
      refine r_iload_n G 2 rfl rfl dX3_tellSets_8 ?_
      refine r_aload_n G 0 rfl rfl dX3_tellSets_9 ?_
      refine r_get G (C := RX3) (T := TX3) (N := 15) kX3_tellSets_X3 72 (cw_READER ad κ _) rfl 1 (by decide) mX3_tellSets_f17 rfl rfl dX3_tellSets_10 ?_
      refine r_alen G 73 0 (cw_NAMED ad κ _) rfl (v := 8) rfl dX3_tellSets_13 ?_
      refine r_icmp_ge G (tgt := 35) dX3_tellSets_14 (by decide) (fun c => ?_) (fun c => ?_)
      · rw [if_pos c] at h
        exact hret _ _ _ _ _ dX3_tellSets_35 (Option.some.inj h).symm (Nat.le_of_ble_eq_true rfl) (Nat.le_of_ble_eq_true rfl)
      · rw [if_neg c] at h
        refine r_aload_n G 1 rfl rfl dX3_tellSets_17 ?_
        refine r_iload_n G 2 rfl rfl dX3_tellSets_18 ?_
        obtain ⟨g1, h⟩ := og h
        refine r_aldq G 56 0 (cw_SETS ad κ _) rfl (vin_in g1) rfl dX3_tellSets_19 ?_
        refine r_aload_n G 0 rfl rfl dX3_tellSets_20 ?_
        refine r_get G (C := RX3) (T := TX3) (N := 15) kX3_tellSets_X3 72 (cw_READER ad κ _) rfl 1 (by decide) mX3_tellSets_f17 rfl rfl dX3_tellSets_21 ?_
        refine r_iload_n G 2 rfl rfl dX3_tellSets_24 ?_
        obtain ⟨g2, h⟩ := og h
        refine r_aldq G 73 0 (cw_NAMED ad κ _) rfl (vin_in g2) rfl dX3_tellSets_25 ?_
        obtain ⟨o3, e3, h⟩ := ob h
        refine r_callVv G [.ref (ad (25 + x2.toNatClampNeg))] (qX2_become hE x2.toNatClampNeg (by have := vin_lt g1; omega) (25 + x2.toNatClampNeg) (by have := vin_lt g2; omega) _ e3) ⟨x2.toNatClampNeg, 2, _, _, rfl, (cw_MS ad κ _ (by have := vin_lt g1; omega)), rfl⟩ gX3_tellSets_X2_become rfl hdX2_become ⟨Nat.le_of_ble_eq_true rfl, Nat.le_of_ble_eq_true rfl⟩ (Nat.le_of_ble_eq_true rfl) rfl ⟨Nat.le_of_ble_eq_true rfl, Nat.le_of_ble_eq_true rfl⟩ rfl rfl dX3_tellSets_26 (fun s3 hp => ?_)
        have hp := hp.symm
        subst hp
        try dsimp only at h
        refine r_iinc G (j := 2) rfl (v := x2 + 1) rfl [1, 2, 0] rfl (by decide) dX3_tellSets_29 ?_
        refine r_goto G (tgt := 2) dX3_tellSets_32 (by decide) ?_
        exact ih _ _ h
set_option maxHeartbeats 4000000 in
set_option maxRecDepth 100000 in
theorem qX3_tellSets {E : evT} {l : Launch} {D : va_G} {ad : Nat → Nat} {κ : Nat → ClassId} (hE : EvOk E) (s : cS) {o : (cS)} (h : fX3_tellSets s = some o) : Cv l yX3_tellSets wsX3_tellSets rmX3_tellSets (cW ad κ) E D (tyA κ)  [.ref (ad 72), .ref (ad 56)] s (fun s2 => o = s2) := by
  rw [fX3_tellSets] at h
  refine s_v (cc := cX3_tellSets) (nL := 3) (own := RX3) hE (cW_WA ad κ) (by decide) rfl rfl (Nat.le_of_ble_eq_true rfl) (fun Γ G hret => ?_)
  refine r_iconst G (v := 0) (by decide) dX3_tellSets_0 ?_
  refine r_istore_n G [1, 2, 0] rfl rfl (by decide) dX3_tellSets_1 ?_
  refine wX3_tellSets_L2 hE G hret 1100 _ _ h
abbrev rmX3_begin : Room := { frames := 1, cells := 0, slots := 0, locals := 21 }
set_option maxRecDepth 20000 in
theorem kX3_begin_X3 : ∀ w ∈ u_ws RX3 TX3 15, w ∈ wsX3_begin := by decide +kernel
set_option maxRecDepth 20000 in
theorem mX3_begin_f17 : Cond.fieldLink RX3 17 "SetCouncil$Reader" "named" "[LSetCouncil$MemberSet;" ∈ wsX3_begin := by decide +kernel
set_option maxHeartbeats 4000000 in
set_option maxRecDepth 100000 in
theorem wX3_begin_L2 {E : evT} {l : Launch} {D : va_G} {ad : Nat → Nat} {κ : Nat → ClassId} (hE : EvOk E) {Γ : cxT} (G : Cx (cW ad κ) D (tyA κ) E l Γ cX3_begin RX3 wsX3_begin 3 rmX3_begin) {o : (cS)} (hret : ∀ (st2 : cS) (cells slots pc : Nat) (lv : List (Nat × Value)), decode cX3_begin pc = .ok (.return_, 1) → o = st2 → cells ≤ rmX3_begin.cells → slots ≤ rmX3_begin.slots → V (cW ad κ) D Γ st2 cells slots pc lv []) {k0 : cS → Option (cS)} (hk0 : ∀ (s : cS), k0 s = some o → V (cW ad κ) D Γ s 0 0 35 [(0, .ref (ad 72))] []) : ∀ (fuel : Nat) (x2 : Int32) (s : cS), fX3_begin_L2 k0 fuel x2 s = some o → V (cW ad κ) D Γ s 0 0 2 [(0, .ref (ad 72)), (1, .ref (ad 56)), (2, .int x2)] [] := by
  intro fuel
  induction fuel with
  | zero =>
    intro _ _ h
    have h : none = some o := h
    cases h
  | succ fuel ih =>
    intro x2 s h
    rw [fX3_begin_L2] at h
    refine r_iload_n G 2 rfl rfl dX3_begin_2 ?_
    refine r_aload_n G 1 rfl rfl dX3_begin_3 ?_
    refine r_alen G 56 0 (cw_SETS ad κ _) rfl (v := 8) rfl dX3_begin_4 ?_
    refine r_icmp_ge G (tgt := 35) dX3_begin_5 (by decide) (fun c => ?_) (fun c => ?_)
    · rw [if_pos c] at h
      refine V.sub [0] rfl ?_
      exact hk0 _ h
    · rw [if_neg c] at h
      refine r_iload_n G 2 rfl rfl dX3_begin_8 ?_
      refine r_aload_n G 0 rfl rfl dX3_begin_9 ?_
      refine r_get G (C := RX3) (T := TX3) (N := 15) kX3_begin_X3 72 (cw_READER ad κ _) rfl 1 (by decide) mX3_begin_f17 rfl rfl dX3_begin_10 ?_
      refine r_alen G 73 0 (cw_NAMED ad κ _) rfl (v := 8) rfl dX3_begin_13 ?_
      refine r_icmp_ge G (tgt := 35) dX3_begin_14 (by decide) (fun c => ?_) (fun c => ?_)
      · rw [if_pos c] at h
        refine V.sub [0] rfl ?_
        exact hk0 _ h
      · rw [if_neg c] at h
        refine r_aload_n G 0 rfl rfl dX3_begin_17 ?_
        refine r_get G (C := RX3) (T := TX3) (N := 15) kX3_begin_X3 72 (cw_READER ad κ _) rfl 1 (by decide) mX3_begin_f17 rfl rfl dX3_begin_18 ?_
        refine r_iload_n G 2 rfl rfl dX3_begin_21 ?_
        obtain ⟨g1, h⟩ := og h
        refine r_aldq G 73 0 (cw_NAMED ad κ _) rfl (vin_in g1) rfl dX3_begin_22 ?_
        refine r_aload_n G 1 rfl rfl dX3_begin_23 ?_
        refine r_iload_n G 2 rfl rfl dX3_begin_24 ?_
        obtain ⟨g2, h⟩ := og h
        refine r_aldq G 56 0 (cw_SETS ad κ _) rfl (vin_in g2) rfl dX3_begin_25 ?_
        obtain ⟨o3, e3, h⟩ := ob h
        refine r_callVv G [.ref (ad x2.toNatClampNeg)] (qX2_become hE (25 + x2.toNatClampNeg) (by have := vin_lt g1; omega) x2.toNatClampNeg (by have := vin_lt g2; omega) _ e3) ⟨(25 + x2.toNatClampNeg), 2, _, _, rfl, (cw_MS ad κ _ (by have := vin_lt g1; omega)), rfl⟩ gX3_begin_X2_become rfl hdX2_become ⟨Nat.le_of_ble_eq_true rfl, Nat.le_of_ble_eq_true rfl⟩ (Nat.le_of_ble_eq_true rfl) rfl ⟨Nat.le_of_ble_eq_true rfl, Nat.le_of_ble_eq_true rfl⟩ rfl rfl dX3_begin_26 (fun s3 hp => ?_)
        have hp := hp.symm
        subst hp
        try dsimp only at h
        refine r_iinc G (j := 2) rfl (v := x2 + 1) rfl [1, 2, 0] rfl (by decide) dX3_begin_29 ?_
        refine r_goto G (tgt := 2) dX3_begin_32 (by decide) ?_
        exact ih _ _ h
set_option maxRecDepth 20000 in
theorem mX3_begin_f61 : Cond.fieldLink RX3 61 "SetCouncil$Reader" "at" "I" ∈ wsX3_begin := by decide +kernel
set_option maxRecDepth 20000 in
theorem mX3_begin_f78 : Cond.fieldLink RX3 78 "SetCouncil$Reader" "state" "I" ∈ wsX3_begin := by decide +kernel
set_option maxRecDepth 20000 in
theorem mX3_begin_f84 : Cond.fieldLink RX3 84 "SetCouncil$Reader" "open" "I" ∈ wsX3_begin := by decide +kernel
set_option maxRecDepth 20000 in
theorem mX3_begin_f47 : Cond.fieldLink RX3 47 "SetCouncil$Reader" "statements" "I" ∈ wsX3_begin := by decide +kernel
set_option maxRecDepth 20000 in
theorem mX3_begin_f44 : Cond.fieldLink RX3 44 "SetCouncil$Reader" "kind" "I" ∈ wsX3_begin := by decide +kernel
set_option maxRecDepth 20000 in
theorem mX3_begin_f40 : Cond.fieldLink RX3 40 "SetCouncil$Reader" "place" "I" ∈ wsX3_begin := by decide +kernel
set_option maxHeartbeats 4000000 in
set_option maxRecDepth 100000 in
theorem qX3_begin {E : evT} {l : Launch} {D : va_G} {ad : Nat → Nat} {κ : Nat → ClassId} (hE : EvOk E) (s : cS) {o : (cS)} (h : fX3_begin s = some o) : Cv l yX3_begin wsX3_begin rmX3_begin (cW ad κ) E D (tyA κ)  [.ref (ad 72), .ref (ad 56)] s (fun s2 => o = s2) := by
  rw [fX3_begin] at h
  refine s_v (cc := cX3_begin) (nL := 3) (own := RX3) hE (cW_WA ad κ) (by decide) rfl rfl (Nat.le_of_ble_eq_true rfl) (fun Γ G hret => ?_)
  refine r_iconst G (v := 0) (by decide) dX3_begin_0 ?_
  refine r_istore_n G [1, 2, 0] rfl rfl (by decide) dX3_begin_1 ?_
  refine wX3_begin_L2 hE G hret (fun s4 h => ?_) 1100 _ _ h
  · try dsimp only at h
    refine r_aload_n G 0 rfl rfl dX3_begin_35 ?_
    refine r_iconst G (v := 0) (by decide) dX3_begin_36 ?_
    refine r_put G (C := RX3) (T := TX3) (N := 15) kX3_begin_X3 tyX3 tyX3_ok nmX3 72 (cw_READER ad κ _) rfl 7 (by decide) mX3_begin_f61 rfl rfl (tyX3_ok 7 (by decide)) rfl rfl (Nat.le_of_ble_eq_true rfl) (cu_Rat ad κ _ _) dX3_begin_37 ?_
    refine r_aload_n G 0 rfl rfl dX3_begin_40 ?_
    refine r_iconst G (v := 0) (by decide) dX3_begin_41 ?_
    refine r_put G (C := RX3) (T := TX3) (N := 15) kX3_begin_X3 tyX3 tyX3_ok nmX3 72 (cw_READER ad κ _) rfl 8 (by decide) mX3_begin_f78 rfl rfl (tyX3_ok 8 (by decide)) rfl rfl (Nat.le_of_ble_eq_true rfl) (cu_Rstate ad κ _ _) dX3_begin_42 ?_
    refine r_aload_n G 0 rfl rfl dX3_begin_45 ?_
    refine r_iconst G (v := 0) (by decide) dX3_begin_46 ?_
    refine r_put G (C := RX3) (T := TX3) (N := 15) kX3_begin_X3 tyX3 tyX3_ok nmX3 72 (cw_READER ad κ _) rfl 9 (by decide) mX3_begin_f84 rfl rfl (tyX3_ok 9 (by decide)) rfl rfl (Nat.le_of_ble_eq_true rfl) (cu_Ropen ad κ _ _) dX3_begin_47 ?_
    refine r_aload_n G 0 rfl rfl dX3_begin_50 ?_
    refine r_iconst G (v := 0) (by decide) dX3_begin_51 ?_
    refine r_put G (C := RX3) (T := TX3) (N := 15) kX3_begin_X3 tyX3 tyX3_ok nmX3 72 (cw_READER ad κ _) rfl 12 (by decide) mX3_begin_f47 rfl rfl (tyX3_ok 12 (by decide)) rfl rfl (Nat.le_of_ble_eq_true rfl) (cu_Rstatements ad κ _ _) dX3_begin_52 ?_
    refine r_aload_n G 0 rfl rfl dX3_begin_55 ?_
    refine r_iconst G (v := 0) (by decide) dX3_begin_56 ?_
    refine r_put G (C := RX3) (T := TX3) (N := 15) kX3_begin_X3 tyX3 tyX3_ok nmX3 72 (cw_READER ad κ _) rfl 13 (by decide) mX3_begin_f44 rfl rfl (tyX3_ok 13 (by decide)) rfl rfl (Nat.le_of_ble_eq_true rfl) (cu_Rkind ad κ _ _) dX3_begin_57 ?_
    refine r_aload_n G 0 rfl rfl dX3_begin_60 ?_
    refine r_iconst G (v := (-1)) (by decide) dX3_begin_61 ?_
    refine r_put G (C := RX3) (T := TX3) (N := 15) kX3_begin_X3 tyX3 tyX3_ok nmX3 72 (cw_READER ad κ _) rfl 14 (by decide) mX3_begin_f40 rfl rfl (tyX3_ok 14 (by decide)) rfl rfl (Nat.le_of_ble_eq_true rfl) (cu_Rplace ad κ _ _) dX3_begin_62 ?_
    exact hret _ _ _ _ _ dX3_begin_65 (Option.some.inj h).symm (Nat.le_of_ble_eq_true rfl) (Nat.le_of_ble_eq_true rfl)
abbrev rmX3_passBlanks : Room := { frames := 1, cells := 0, slots := 0, locals := 21 }
set_option maxRecDepth 20000 in
theorem kX3_passBlanks_X3 : ∀ w ∈ u_ws RX3 TX3 15, w ∈ wsX3_passBlanks := by decide +kernel
set_option maxRecDepth 20000 in
theorem mX3_passBlanks_f61 : Cond.fieldLink RX3 61 "SetCouncil$Reader" "at" "I" ∈ wsX3_passBlanks := by decide +kernel
set_option maxRecDepth 20000 in
theorem mX3_passBlanks_f9 : Cond.fieldLink RX3 9 "SetCouncil$Reader" "text" "LSetCouncil$Text;" ∈ wsX3_passBlanks := by decide +kernel
theorem hdX4_length : yX4_length.cls = RX4 ∧ yX4_length.cls ≠ "java/lang/invoke/MethodHandle" ∧ yX4_length.cls ≠ "java/lang/invoke/VarHandle" ∧ (parseMethodDescriptor yX4_length.desc).map (fun d => d.parameters.length) = some 0 := by decide +kernel
theorem hdX4_byteAt : yX4_byteAt.cls = RX4 ∧ yX4_byteAt.cls ≠ "java/lang/invoke/MethodHandle" ∧ yX4_byteAt.cls ≠ "java/lang/invoke/VarHandle" ∧ (parseMethodDescriptor yX4_byteAt.desc).map (fun d => d.parameters.length) = some 1 := by decide +kernel
set_option maxHeartbeats 4000000 in
set_option maxRecDepth 100000 in
theorem wX3_passBlanks_L0 {E : evT} {l : Launch} {D : va_G} {ad : Nat → Nat} {κ : Nat → ClassId} (hE : EvOk E) {Γ : cxT} (G : Cx (cW ad κ) D (tyA κ) E l Γ cX3_passBlanks RX3 wsX3_passBlanks 1 rmX3_passBlanks) {o : (cS)} (hret : ∀ (st2 : cS) (cells slots pc : Nat) (lv : List (Nat × Value)), decode cX3_passBlanks pc = .ok (.return_, 1) → o = st2 → cells ≤ rmX3_passBlanks.cells → slots ≤ rmX3_passBlanks.slots → V (cW ad κ) D Γ st2 cells slots pc lv []) : ∀ (fuel : Nat) (s : cS), fX3_passBlanks_L0 fuel s = some o → V (cW ad κ) D Γ s 0 0 0 [(0, .ref (ad 72))] [] := by
  intro fuel
  induction fuel with
  | zero =>
    intro _ h
    have h : none = some o := h
    cases h
  | succ fuel ih =>
    intro s h
    rw [fX3_passBlanks_L0] at h
    refine r_aload_n G 0 rfl rfl dX3_passBlanks_0 ?_
    refine r_get G (C := RX3) (T := TX3) (N := 15) kX3_passBlanks_X3 72 (cw_READER ad κ _) rfl 7 (by decide) mX3_passBlanks_f61 rfl rfl dX3_passBlanks_1 ?_
    refine r_aload_n G 0 rfl rfl dX3_passBlanks_4 ?_
    refine r_get G (C := RX3) (T := TX3) (N := 15) kX3_passBlanks_X3 72 (cw_READER ad κ _) rfl 0 (by decide) mX3_passBlanks_f9 rfl rfl dX3_passBlanks_5 ?_
    refine r_callVi G [] (qX4_length hE _) ⟨70, 4, _, _, rfl, (cw_TEXT ad κ _), rfl⟩ gX3_passBlanks_X4_length rfl hdX4_length ⟨Nat.le_of_ble_eq_true rfl, Nat.le_of_ble_eq_true rfl⟩ (Nat.le_of_ble_eq_true rfl) rfl ⟨Nat.le_of_ble_eq_true rfl, Nat.le_of_ble_eq_true rfl⟩ rfl rfl dX3_passBlanks_8 (fun r1 s1 hp hn1 => ?_)
    obtain ⟨rfl, hs⟩ := hp
    have hs := hs.symm
    subst hs
    refine r_icmp_ge G (tgt := 59) dX3_passBlanks_11 (by decide) (fun c => ?_) (fun c => ?_)
    · rw [if_pos c] at h
      exact hret _ _ _ _ _ dX3_passBlanks_59 (Option.some.inj h).symm (Nat.le_of_ble_eq_true rfl) (Nat.le_of_ble_eq_true rfl)
    · rw [if_neg c] at h
      refine r_aload_n G 0 rfl rfl dX3_passBlanks_14 ?_
      refine r_get G (C := RX3) (T := TX3) (N := 15) kX3_passBlanks_X3 72 (cw_READER ad κ _) rfl 0 (by decide) mX3_passBlanks_f9 rfl rfl dX3_passBlanks_15 ?_
      refine r_aload_n G 0 rfl rfl dX3_passBlanks_18 ?_
      refine r_get G (C := RX3) (T := TX3) (N := 15) kX3_passBlanks_X3 72 (cw_READER ad κ _) rfl 7 (by decide) mX3_passBlanks_f61 rfl rfl dX3_passBlanks_19 ?_
      obtain ⟨o2, e2, h⟩ := ob h
      refine r_callVi G [.int (sI s 3)] (qX4_byteAt hE (sI s 3) _ e2) ⟨70, 4, _, _, rfl, (cw_TEXT ad κ _), rfl⟩ gX3_passBlanks_X4_byteAt rfl hdX4_byteAt ⟨Nat.le_of_ble_eq_true rfl, Nat.le_of_ble_eq_true rfl⟩ (Nat.le_of_ble_eq_true rfl) rfl ⟨Nat.le_of_ble_eq_true rfl, Nat.le_of_ble_eq_true rfl⟩ rfl rfl dX3_passBlanks_22 (fun r2 s2 hp hn2 => ?_)
      subst hp
      try dsimp only at h
      refine r_bipush G (v := 32) (by decide) dX3_passBlanks_25 ?_
      refine r_icmp_eq G (tgt := 46) dX3_passBlanks_27 (by decide) (fun c => ?_) (fun c => ?_)
      · rw [if_pos c] at h
        refine r_aload_n G 0 rfl rfl dX3_passBlanks_46 ?_
        refine r_dup G rfl dX3_passBlanks_47 ?_
        refine r_get G (C := RX3) (T := TX3) (N := 15) kX3_passBlanks_X3 72 (cw_READER ad κ _) rfl 7 (by decide) mX3_passBlanks_f61 rfl rfl dX3_passBlanks_48 ?_
        refine r_iconst G (v := 1) (by decide) dX3_passBlanks_51 ?_
        refine r_iadd G dX3_passBlanks_52 ?_
        refine r_put G (C := RX3) (T := TX3) (N := 15) kX3_passBlanks_X3 tyX3 tyX3_ok nmX3 72 (cw_READER ad κ _) rfl 7 (by decide) mX3_passBlanks_f61 rfl rfl (tyX3_ok 7 (by decide)) rfl rfl (Nat.le_of_ble_eq_true rfl) (cu_Rat ad κ _ _) dX3_passBlanks_53 ?_
        refine r_goto G (tgt := 0) dX3_passBlanks_56 (by decide) ?_
        exact ih _ h
      · rw [if_neg c] at h
        refine r_aload_n G 0 rfl rfl dX3_passBlanks_30 ?_
        refine r_get G (C := RX3) (T := TX3) (N := 15) kX3_passBlanks_X3 72 (cw_READER ad κ _) rfl 0 (by decide) mX3_passBlanks_f9 rfl rfl dX3_passBlanks_31 ?_
        refine r_aload_n G 0 rfl rfl dX3_passBlanks_34 ?_
        refine r_get G (C := RX3) (T := TX3) (N := 15) kX3_passBlanks_X3 72 (cw_READER ad κ _) rfl 7 (by decide) mX3_passBlanks_f61 rfl rfl dX3_passBlanks_35 ?_
        obtain ⟨o3, e3, h⟩ := ob h
        refine r_callVi G [.int (sI s2 3)] (qX4_byteAt hE (sI s2 3) _ e3) ⟨70, 4, _, _, rfl, (cw_TEXT ad κ _), rfl⟩ gX3_passBlanks_X4_byteAt rfl hdX4_byteAt ⟨Nat.le_of_ble_eq_true rfl, Nat.le_of_ble_eq_true rfl⟩ (Nat.le_of_ble_eq_true rfl) rfl ⟨Nat.le_of_ble_eq_true rfl, Nat.le_of_ble_eq_true rfl⟩ rfl rfl dX3_passBlanks_38 (fun r3 s3 hp hn3 => ?_)
        subst hp
        try dsimp only at h
        refine r_bipush G (v := 10) (by decide) dX3_passBlanks_41 ?_
        refine r_icmp_ne G (tgt := 59) dX3_passBlanks_43 (by decide) (fun c => ?_) (fun c => ?_)
        · rw [if_neg c] at h
          exact hret _ _ _ _ _ dX3_passBlanks_59 (Option.some.inj h).symm (Nat.le_of_ble_eq_true rfl) (Nat.le_of_ble_eq_true rfl)
        · rw [if_pos c] at h
          refine r_aload_n G 0 rfl rfl dX3_passBlanks_46 ?_
          refine r_dup G rfl dX3_passBlanks_47 ?_
          refine r_get G (C := RX3) (T := TX3) (N := 15) kX3_passBlanks_X3 72 (cw_READER ad κ _) rfl 7 (by decide) mX3_passBlanks_f61 rfl rfl dX3_passBlanks_48 ?_
          refine r_iconst G (v := 1) (by decide) dX3_passBlanks_51 ?_
          refine r_iadd G dX3_passBlanks_52 ?_
          refine r_put G (C := RX3) (T := TX3) (N := 15) kX3_passBlanks_X3 tyX3 tyX3_ok nmX3 72 (cw_READER ad κ _) rfl 7 (by decide) mX3_passBlanks_f61 rfl rfl (tyX3_ok 7 (by decide)) rfl rfl (Nat.le_of_ble_eq_true rfl) (cu_Rat ad κ _ _) dX3_passBlanks_53 ?_
          refine r_goto G (tgt := 0) dX3_passBlanks_56 (by decide) ?_
          exact ih _ h
set_option maxHeartbeats 4000000 in
set_option maxRecDepth 100000 in
theorem qX3_passBlanks {E : evT} {l : Launch} {D : va_G} {ad : Nat → Nat} {κ : Nat → ClassId} (hE : EvOk E) (s : cS) {o : (cS)} (h : fX3_passBlanks s = some o) : Cv l yX3_passBlanks wsX3_passBlanks rmX3_passBlanks (cW ad κ) E D (tyA κ)  [.ref (ad 72)] s (fun s2 => o = s2) := by
  rw [fX3_passBlanks] at h
  refine s_v (cc := cX3_passBlanks) (nL := 1) (own := RX3) hE (cW_WA ad κ) (by decide) rfl rfl (Nat.le_of_ble_eq_true rfl) (fun Γ G hret => ?_)
  refine wX3_passBlanks_L0 hE G hret 1100 _ h
abbrev rmX3_isName : Room := { frames := 0, cells := 0, slots := 0, locals := 0 }
set_option maxHeartbeats 4000000 in
set_option maxRecDepth 100000 in
theorem qX3_isName {E : evT} {l : Launch} {D : va_G} {ad : Nat → Nat} {κ : Nat → ClassId} (hE : EvOk E) (p0 : Int32) (s : cS) : Ci l yX3_isName wsX3_isName rmX3_isName (cW ad κ) E D (tyA κ) .boolean [.int p0] s (fun r s2 => r = fX3_isName p0 s ∧ s2 = s) := by
  obtain ⟨o, h⟩ : ∃ o, fX3_isName p0 s = o := ⟨_, rfl⟩
  rw [h]
  rw [fX3_isName] at h
  refine s_i (cc := cX3_isName) (nL := 1) (own := RX3) hE (cW_WA ad κ) (plainFor_of_name (by decide)) rfl rfl (Nat.le_of_ble_eq_true rfl) (fun Γ G hret => ?_)
  refine r_iload_n G 0 rfl rfl dX3_isName_0 ?_
  refine r_bipush G (v := 97) (by decide) dX3_isName_1 ?_
  refine r_icmp_lt G (tgt := 16) dX3_isName_3 (by decide) (fun c => ?_) (fun c => ?_)
  · rw [if_pos c] at h
    refine r_iconst G (v := 0) (by decide) dX3_isName_16 ?_
    exact hret _ _ _ _ _ _ dX3_isName_17 ⟨h, rfl⟩ rfl (Nat.le_of_ble_eq_true rfl) (Nat.le_of_ble_eq_true rfl)
  · rw [if_neg c] at h
    refine r_iload_n G 0 rfl rfl dX3_isName_6 ?_
    refine r_bipush G (v := 104) (by decide) dX3_isName_7 ?_
    refine r_icmp_gt G (tgt := 16) dX3_isName_9 (by decide) (fun c => ?_) (fun c => ?_)
    · rw [if_pos c] at h
      refine r_iconst G (v := 0) (by decide) dX3_isName_16 ?_
      exact hret _ _ _ _ _ _ dX3_isName_17 ⟨h, rfl⟩ rfl (Nat.le_of_ble_eq_true rfl) (Nat.le_of_ble_eq_true rfl)
    · rw [if_neg c] at h
      refine r_iconst G (v := 1) (by decide) dX3_isName_12 ?_
      refine r_goto G (tgt := 17) dX3_isName_13 (by decide) ?_
      exact hret _ _ _ _ _ _ dX3_isName_17 ⟨h, rfl⟩ rfl (Nat.le_of_ble_eq_true rfl) (Nat.le_of_ble_eq_true rfl)
abbrev rmX3_pass : Room := { frames := 0, cells := 0, slots := 0, locals := 0 }
set_option maxRecDepth 20000 in
theorem kX3_pass_X3 : ∀ w ∈ u_ws RX3 TX3 15, w ∈ wsX3_pass := by decide +kernel
set_option maxRecDepth 20000 in
theorem mX3_pass_f61 : Cond.fieldLink RX3 61 "SetCouncil$Reader" "at" "I" ∈ wsX3_pass := by decide +kernel
set_option maxRecDepth 20000 in
theorem mX3_pass_f78 : Cond.fieldLink RX3 78 "SetCouncil$Reader" "state" "I" ∈ wsX3_pass := by decide +kernel
set_option maxHeartbeats 4000000 in
set_option maxRecDepth 100000 in
theorem qX3_pass {E : evT} {l : Launch} {D : va_G} {ad : Nat → Nat} {κ : Nat → ClassId} (hE : EvOk E) (p0 : Int32) (s : cS) {o : (cS)} (h : fX3_pass p0 s = some o) : Cv l yX3_pass wsX3_pass rmX3_pass (cW ad κ) E D (tyA κ)  [.ref (ad 72), .int p0] s (fun s2 => o = s2) := by
  rw [fX3_pass] at h
  refine s_v (cc := cX3_pass) (nL := 2) (own := RX3) hE (cW_WA ad κ) (by decide) rfl rfl (Nat.le_of_ble_eq_true rfl) (fun Γ G hret => ?_)
  refine r_aload_n G 0 rfl rfl dX3_pass_0 ?_
  refine r_dup G rfl dX3_pass_1 ?_
  refine r_get G (C := RX3) (T := TX3) (N := 15) kX3_pass_X3 72 (cw_READER ad κ _) rfl 7 (by decide) mX3_pass_f61 rfl rfl dX3_pass_2 ?_
  refine r_iconst G (v := 1) (by decide) dX3_pass_5 ?_
  refine r_iadd G dX3_pass_6 ?_
  refine r_put G (C := RX3) (T := TX3) (N := 15) kX3_pass_X3 tyX3 tyX3_ok nmX3 72 (cw_READER ad κ _) rfl 7 (by decide) mX3_pass_f61 rfl rfl (tyX3_ok 7 (by decide)) rfl rfl (Nat.le_of_ble_eq_true rfl) (cu_Rat ad κ _ _) dX3_pass_7 ?_
  refine r_aload_n G 0 rfl rfl dX3_pass_10 ?_
  refine r_iload_n G 1 rfl rfl dX3_pass_11 ?_
  refine r_put G (C := RX3) (T := TX3) (N := 15) kX3_pass_X3 tyX3 tyX3_ok nmX3 72 (cw_READER ad κ _) rfl 8 (by decide) mX3_pass_f78 rfl rfl (tyX3_ok 8 (by decide)) rfl rfl (Nat.le_of_ble_eq_true rfl) (cu_Rstate ad κ _ _) dX3_pass_12 ?_
  exact hret _ _ _ _ _ dX3_pass_15 (Option.some.inj h).symm (Nat.le_of_ble_eq_true rfl) (Nat.le_of_ble_eq_true rfl)
abbrev rmX3_fail : Room := { frames := 0, cells := 0, slots := 0, locals := 0 }
set_option maxRecDepth 20000 in
theorem kX3_fail_X3 : ∀ w ∈ u_ws RX3 TX3 15, w ∈ wsX3_fail := by decide +kernel
set_option maxRecDepth 20000 in
theorem mX3_fail_f44 : Cond.fieldLink RX3 44 "SetCouncil$Reader" "kind" "I" ∈ wsX3_fail := by decide +kernel
set_option maxRecDepth 20000 in
theorem mX3_fail_f40 : Cond.fieldLink RX3 40 "SetCouncil$Reader" "place" "I" ∈ wsX3_fail := by decide +kernel
set_option maxHeartbeats 4000000 in
set_option maxRecDepth 100000 in
theorem qX3_fail {E : evT} {l : Launch} {D : va_G} {ad : Nat → Nat} {κ : Nat → ClassId} (hE : EvOk E) (p0 : Int32) (p1 : Int32) (s : cS) {o : (cS)} (h : fX3_fail p0 p1 s = some o) : Cv l yX3_fail wsX3_fail rmX3_fail (cW ad κ) E D (tyA κ)  [.ref (ad 72), .int p0, .int p1] s (fun s2 => o = s2) := by
  rw [fX3_fail] at h
  refine s_v (cc := cX3_fail) (nL := 3) (own := RX3) hE (cW_WA ad κ) (by decide) rfl rfl (Nat.le_of_ble_eq_true rfl) (fun Γ G hret => ?_)
  refine r_aload_n G 0 rfl rfl dX3_fail_0 ?_
  refine r_iload_n G 1 rfl rfl dX3_fail_1 ?_
  refine r_put G (C := RX3) (T := TX3) (N := 15) kX3_fail_X3 tyX3 tyX3_ok nmX3 72 (cw_READER ad κ _) rfl 13 (by decide) mX3_fail_f44 rfl rfl (tyX3_ok 13 (by decide)) rfl rfl (Nat.le_of_ble_eq_true rfl) (cu_Rkind ad κ _ _) dX3_fail_2 ?_
  refine r_aload_n G 0 rfl rfl dX3_fail_5 ?_
  refine r_iload_n G 2 rfl rfl dX3_fail_6 ?_
  refine r_put G (C := RX3) (T := TX3) (N := 15) kX3_fail_X3 tyX3 tyX3_ok nmX3 72 (cw_READER ad κ _) rfl 14 (by decide) mX3_fail_f40 rfl rfl (tyX3_ok 14 (by decide)) rfl rfl (Nat.le_of_ble_eq_true rfl) (cu_Rplace ad κ _ _) dX3_fail_7 ?_
  exact hret _ _ _ _ _ dX3_fail_10 (Option.some.inj h).symm (Nat.le_of_ble_eq_true rfl) (Nat.le_of_ble_eq_true rfl)
abbrev rmX3_refuseByte : Room := { frames := 1, cells := 0, slots := 0, locals := 22 }
set_option maxRecDepth 20000 in
theorem kX3_refuseByte_X3 : ∀ w ∈ u_ws RX3 TX3 15, w ∈ wsX3_refuseByte := by decide +kernel
set_option maxRecDepth 20000 in
theorem mX3_refuseByte_f61 : Cond.fieldLink RX3 61 "SetCouncil$Reader" "at" "I" ∈ wsX3_refuseByte := by decide +kernel
theorem hdX3_fail : yX3_fail.cls = RX3 ∧ yX3_fail.cls ≠ "java/lang/invoke/MethodHandle" ∧ yX3_fail.cls ≠ "java/lang/invoke/VarHandle" ∧ (parseMethodDescriptor yX3_fail.desc).map (fun d => d.parameters.length) = some 2 := by decide +kernel
set_option maxHeartbeats 4000000 in
set_option maxRecDepth 100000 in
theorem qX3_refuseByte {E : evT} {l : Launch} {D : va_G} {ad : Nat → Nat} {κ : Nat → ClassId} (hE : EvOk E) (s : cS) {o : (cS)} (h : fX3_refuseByte s = some o) : Cv l yX3_refuseByte wsX3_refuseByte rmX3_refuseByte (cW ad κ) E D (tyA κ)  [.ref (ad 72)] s (fun s2 => o = s2) := by
  rw [fX3_refuseByte] at h
  refine s_v (cc := cX3_refuseByte) (nL := 1) (own := RX3) hE (cW_WA ad κ) (by decide) rfl rfl (Nat.le_of_ble_eq_true rfl) (fun Γ G hret => ?_)
  refine r_aload_n G 0 rfl rfl dX3_refuseByte_0 ?_
  refine r_iconst G (v := 1) (by decide) dX3_refuseByte_1 ?_
  refine r_aload_n G 0 rfl rfl dX3_refuseByte_2 ?_
  refine r_get G (C := RX3) (T := TX3) (N := 15) kX3_refuseByte_X3 72 (cw_READER ad κ _) rfl 7 (by decide) mX3_refuseByte_f61 rfl rfl dX3_refuseByte_3 ?_
  obtain ⟨o1, e1, h⟩ := ob h
  refine r_callVv G [.int 1, .int (sI s 3)] (qX3_fail hE (1 : Int32) (sI s 3) _ e1) ⟨72, 3, _, _, rfl, (cw_READER ad κ _), rfl⟩ gX3_refuseByte_X3_fail rfl hdX3_fail ⟨Nat.le_of_ble_eq_true rfl, Nat.le_of_ble_eq_true rfl⟩ (Nat.le_of_ble_eq_true rfl) rfl ⟨Nat.le_of_ble_eq_true rfl, Nat.le_of_ble_eq_true rfl⟩ rfl rfl dX3_refuseByte_6 (fun s1 hp => ?_)
  have hp := hp.symm
  subst hp
  try dsimp only at h
  exact hret _ _ _ _ _ dX3_refuseByte_9 (Option.some.inj h).symm (Nat.le_of_ble_eq_true rfl) (Nat.le_of_ble_eq_true rfl)
abbrev rmX3_readTarget : Room := { frames := 2, cells := 0, slots := 0, locals := 42 }
theorem hdX3_isName : yX3_isName.cls ≠ "java/lang/invoke/MethodHandle" ∧ yX3_isName.cls ≠ "java/lang/invoke/VarHandle" ∧ (parseMethodDescriptor yX3_isName.desc).map (fun d => d.parameters.length) = some 1 := by decide +kernel
theorem hdX3_refuseByte : yX3_refuseByte.cls = RX3 ∧ yX3_refuseByte.cls ≠ "java/lang/invoke/MethodHandle" ∧ yX3_refuseByte.cls ≠ "java/lang/invoke/VarHandle" ∧ (parseMethodDescriptor yX3_refuseByte.desc).map (fun d => d.parameters.length) = some 0 := by decide +kernel
set_option maxRecDepth 20000 in
theorem kX3_readTarget_X3 : ∀ w ∈ u_ws RX3 TX3 15, w ∈ wsX3_readTarget := by decide +kernel
set_option maxRecDepth 20000 in
theorem mX3_readTarget_f122 : Cond.fieldLink RX3 122 "SetCouncil$Reader" "target" "I" ∈ wsX3_readTarget := by decide +kernel
theorem hdX3_pass : yX3_pass.cls = RX3 ∧ yX3_pass.cls ≠ "java/lang/invoke/MethodHandle" ∧ yX3_pass.cls ≠ "java/lang/invoke/VarHandle" ∧ (parseMethodDescriptor yX3_pass.desc).map (fun d => d.parameters.length) = some 1 := by decide +kernel
set_option maxHeartbeats 4000000 in
set_option maxRecDepth 100000 in
theorem qX3_readTarget {E : evT} {l : Launch} {D : va_G} {ad : Nat → Nat} {κ : Nat → ClassId} (hE : EvOk E) (p0 : Int32) (s : cS) {o : (cS)} (h : fX3_readTarget p0 s = some o) : Cv l yX3_readTarget wsX3_readTarget rmX3_readTarget (cW ad κ) E D (tyA κ)  [.ref (ad 72), .int p0] s (fun s2 => o = s2) := by
  rw [fX3_readTarget] at h
  refine s_v (cc := cX3_readTarget) (nL := 2) (own := RX3) hE (cW_WA ad κ) (by decide) rfl rfl (Nat.le_of_ble_eq_true rfl) (fun Γ G hret => ?_)
  refine r_iload_n G 1 rfl rfl dX3_readTarget_0 ?_
  refine r_callSi G [.int p0] (qX3_isName hE p0 _) gX3_readTarget_X3_isName rfl hdX3_isName ⟨Nat.le_of_ble_eq_true rfl, Nat.le_of_ble_eq_true rfl⟩ (Nat.le_of_ble_eq_true rfl) rfl ⟨Nat.le_of_ble_eq_true rfl, Nat.le_of_ble_eq_true rfl⟩ rfl rfl dX3_readTarget_1 (fun r1 s1 hp hn1 => ?_)
  obtain ⟨rfl, hs⟩ := hp
  have hs := hs.symm
  subst hs
  refine r_if_eq G (tgt := 23) dX3_readTarget_4 (by decide) (fun c => ?_) (fun c => ?_)
  · rw [if_pos c] at h
    refine r_aload_n G 0 rfl rfl dX3_readTarget_23 ?_
    obtain ⟨o2, e2, h⟩ := ob h
    refine r_callVv G [] (qX3_refuseByte hE _ e2) ⟨72, 3, _, _, rfl, (cw_READER ad κ _), rfl⟩ gX3_readTarget_X3_refuseByte rfl hdX3_refuseByte ⟨Nat.le_of_ble_eq_true rfl, Nat.le_of_ble_eq_true rfl⟩ (Nat.le_of_ble_eq_true rfl) rfl ⟨Nat.le_of_ble_eq_true rfl, Nat.le_of_ble_eq_true rfl⟩ rfl rfl dX3_readTarget_24 (fun s2 hp => ?_)
    have hp := hp.symm
    subst hp
    try dsimp only at h
    exact hret _ _ _ _ _ dX3_readTarget_27 (Option.some.inj h).symm (Nat.le_of_ble_eq_true rfl) (Nat.le_of_ble_eq_true rfl)
  · rw [if_neg c] at h
    refine r_aload_n G 0 rfl rfl dX3_readTarget_7 ?_
    refine r_iload_n G 1 rfl rfl dX3_readTarget_8 ?_
    refine r_bipush G (v := 97) (by decide) dX3_readTarget_9 ?_
    refine r_isub G dX3_readTarget_11 ?_
    refine r_put G (C := RX3) (T := TX3) (N := 15) kX3_readTarget_X3 tyX3 tyX3_ok nmX3 72 (cw_READER ad κ _) rfl 10 (by decide) mX3_readTarget_f122 rfl rfl (tyX3_ok 10 (by decide)) rfl rfl (Nat.le_of_ble_eq_true rfl) (cu_Rtarget ad κ _ _) dX3_readTarget_12 ?_
    refine r_aload_n G 0 rfl rfl dX3_readTarget_15 ?_
    refine r_iconst G (v := 1) (by decide) dX3_readTarget_16 ?_
    obtain ⟨o3, e3, h⟩ := ob h
    refine r_callVv G [.int 1] (qX3_pass hE (1 : Int32) _ e3) ⟨72, 3, _, _, rfl, (cw_READER ad κ _), rfl⟩ gX3_readTarget_X3_pass rfl hdX3_pass ⟨Nat.le_of_ble_eq_true rfl, Nat.le_of_ble_eq_true rfl⟩ (Nat.le_of_ble_eq_true rfl) rfl ⟨Nat.le_of_ble_eq_true rfl, Nat.le_of_ble_eq_true rfl⟩ rfl rfl dX3_readTarget_17 (fun s3 hp => ?_)
    have hp := hp.symm
    subst hp
    try dsimp only at h
    refine r_goto G (tgt := 27) dX3_readTarget_20 (by decide) ?_
    exact hret _ _ _ _ _ dX3_readTarget_27 (Option.some.inj h).symm (Nat.le_of_ble_eq_true rfl) (Nat.le_of_ble_eq_true rfl)
abbrev rmX3_beginSum : Room := { frames := 1, cells := 0, slots := 0, locals := 20 }
set_option maxRecDepth 20000 in
theorem kX3_beginSum_X3 : ∀ w ∈ u_ws RX3 TX3 15, w ∈ wsX3_beginSum := by decide +kernel
set_option maxRecDepth 20000 in
theorem mX3_beginSum_f26 : Cond.fieldLink RX3 26 "SetCouncil$Reader" "sums" "[LSetCouncil$MemberSet;" ∈ wsX3_beginSum := by decide +kernel
set_option maxRecDepth 20000 in
theorem mX3_beginSum_f84 : Cond.fieldLink RX3 84 "SetCouncil$Reader" "open" "I" ∈ wsX3_beginSum := by decide +kernel
set_option maxRecDepth 20000 in
theorem mX3_beginSum_f32 : Cond.fieldLink RX3 32 "SetCouncil$Reader" "sumSigns" "[I" ∈ wsX3_beginSum := by decide +kernel
set_option maxRecDepth 20000 in
theorem mX3_beginSum_f36 : Cond.fieldLink RX3 36 "SetCouncil$Reader" "partBegun" "[Z" ∈ wsX3_beginSum := by decide +kernel
set_option maxHeartbeats 4000000 in
set_option maxRecDepth 100000 in
theorem qX3_beginSum {E : evT} {l : Launch} {D : va_G} {ad : Nat → Nat} {κ : Nat → ClassId} (hE : EvOk E) (s : cS) {o : (cS)} (h : fX3_beginSum s = some o) : Cv l yX3_beginSum wsX3_beginSum rmX3_beginSum (cW ad κ) E D (tyA κ)  [.ref (ad 72)] s (fun s2 => o = s2) := by
  rw [fX3_beginSum] at h
  refine s_v (cc := cX3_beginSum) (nL := 1) (own := RX3) hE (cW_WA ad κ) (by decide) rfl rfl (Nat.le_of_ble_eq_true rfl) (fun Γ G hret => ?_)
  refine r_aload_n G 0 rfl rfl dX3_beginSum_0 ?_
  refine r_get G (C := RX3) (T := TX3) (N := 15) kX3_beginSum_X3 72 (cw_READER ad κ _) rfl 3 (by decide) mX3_beginSum_f26 rfl rfl dX3_beginSum_1 ?_
  refine r_aload_n G 0 rfl rfl dX3_beginSum_4 ?_
  refine r_get G (C := RX3) (T := TX3) (N := 15) kX3_beginSum_X3 72 (cw_READER ad κ _) rfl 9 (by decide) mX3_beginSum_f84 rfl rfl dX3_beginSum_5 ?_
  obtain ⟨g1, h⟩ := og h
  refine r_aldq G 74 0 (cw_SUMS ad κ _) rfl (vin_in g1) rfl dX3_beginSum_8 ?_
  obtain ⟨o2, e2, h⟩ := ob h
  refine r_callVv G [] (qX2_empty hE (34 + (sI s 5).toNatClampNeg) (by have := vin_lt g1; omega) _ e2) ⟨(34 + (sI s 5).toNatClampNeg), 2, _, _, rfl, (cw_MS ad κ _ (by have := vin_lt g1; omega)), rfl⟩ gX3_beginSum_X2_empty rfl hdX2_empty ⟨Nat.le_of_ble_eq_true rfl, Nat.le_of_ble_eq_true rfl⟩ (Nat.le_of_ble_eq_true rfl) rfl ⟨Nat.le_of_ble_eq_true rfl, Nat.le_of_ble_eq_true rfl⟩ rfl rfl dX3_beginSum_9 (fun s2 hp => ?_)
  have hp := hp.symm
  subst hp
  try dsimp only at h
  refine r_aload_n G 0 rfl rfl dX3_beginSum_12 ?_
  refine r_get G (C := RX3) (T := TX3) (N := 15) kX3_beginSum_X3 72 (cw_READER ad κ _) rfl 5 (by decide) mX3_beginSum_f32 rfl rfl dX3_beginSum_13 ?_
  refine r_aload_n G 0 rfl rfl dX3_beginSum_16 ?_
  refine r_get G (C := RX3) (T := TX3) (N := 15) kX3_beginSum_X3 72 (cw_READER ad κ _) rfl 9 (by decide) mX3_beginSum_f84 rfl rfl dX3_beginSum_17 ?_
  refine r_iconst G (v := 0) (by decide) dX3_beginSum_20 ?_
  obtain ⟨g3, h⟩ := og h
  refine r_iast G 76 3 (cw_SIGNS ad κ _) rfl (vin_in g3) (cu_SIGN ad κ _ _ _) dX3_beginSum_21 ?_
  refine r_aload_n G 0 rfl rfl dX3_beginSum_22 ?_
  refine r_get G (C := RX3) (T := TX3) (N := 15) kX3_beginSum_X3 72 (cw_READER ad κ _) rfl 6 (by decide) mX3_beginSum_f36 rfl rfl dX3_beginSum_23 ?_
  refine r_aload_n G 0 rfl rfl dX3_beginSum_26 ?_
  refine r_get G (C := RX3) (T := TX3) (N := 15) kX3_beginSum_X3 72 (cw_READER ad κ _) rfl 9 (by decide) mX3_beginSum_f84 rfl rfl dX3_beginSum_27 ?_
  refine r_iconst G (v := 0) (by decide) dX3_beginSum_30 ?_
  obtain ⟨g4, h⟩ := og h
  refine r_zast G 77 4 (cw_BEGUN ad κ _) rfl (vin_in g4) (cu_BEGUN ad κ _ _ _) dX3_beginSum_31 ?_
  exact hret _ _ _ _ _ dX3_beginSum_32 (Option.some.inj h).symm (Nat.le_of_ble_eq_true rfl) (Nat.le_of_ble_eq_true rfl)
abbrev rmX3_readEquals : Room := { frames := 2, cells := 0, slots := 0, locals := 42 }
theorem hdX3_beginSum : yX3_beginSum.cls = RX3 ∧ yX3_beginSum.cls ≠ "java/lang/invoke/MethodHandle" ∧ yX3_beginSum.cls ≠ "java/lang/invoke/VarHandle" ∧ (parseMethodDescriptor yX3_beginSum.desc).map (fun d => d.parameters.length) = some 0 := by decide +kernel
set_option maxHeartbeats 4000000 in
set_option maxRecDepth 100000 in
theorem qX3_readEquals {E : evT} {l : Launch} {D : va_G} {ad : Nat → Nat} {κ : Nat → ClassId} (hE : EvOk E) (p0 : Int32) (s : cS) {o : (cS)} (h : fX3_readEquals p0 s = some o) : Cv l yX3_readEquals wsX3_readEquals rmX3_readEquals (cW ad κ) E D (tyA κ)  [.ref (ad 72), .int p0] s (fun s2 => o = s2) := by
  rw [fX3_readEquals] at h
  refine s_v (cc := cX3_readEquals) (nL := 2) (own := RX3) hE (cW_WA ad κ) (by decide) rfl rfl (Nat.le_of_ble_eq_true rfl) (fun Γ G hret => ?_)
  refine r_iload_n G 1 rfl rfl dX3_readEquals_0 ?_
  refine r_bipush G (v := 61) (by decide) dX3_readEquals_1 ?_
  refine r_icmp_ne G (tgt := 18) dX3_readEquals_3 (by decide) (fun c => ?_) (fun c => ?_)
  · rw [if_neg c] at h
    refine r_aload_n G 0 rfl rfl dX3_readEquals_18 ?_
    obtain ⟨o1, e1, h⟩ := ob h
    refine r_callVv G [] (qX3_refuseByte hE _ e1) ⟨72, 3, _, _, rfl, (cw_READER ad κ _), rfl⟩ gX3_readEquals_X3_refuseByte rfl hdX3_refuseByte ⟨Nat.le_of_ble_eq_true rfl, Nat.le_of_ble_eq_true rfl⟩ (Nat.le_of_ble_eq_true rfl) rfl ⟨Nat.le_of_ble_eq_true rfl, Nat.le_of_ble_eq_true rfl⟩ rfl rfl dX3_readEquals_19 (fun s1 hp => ?_)
    have hp := hp.symm
    subst hp
    try dsimp only at h
    exact hret _ _ _ _ _ dX3_readEquals_22 (Option.some.inj h).symm (Nat.le_of_ble_eq_true rfl) (Nat.le_of_ble_eq_true rfl)
  · rw [if_pos c] at h
    refine r_aload_n G 0 rfl rfl dX3_readEquals_6 ?_
    obtain ⟨o2, e2, h⟩ := ob h
    refine r_callVv G [] (qX3_beginSum hE _ e2) ⟨72, 3, _, _, rfl, (cw_READER ad κ _), rfl⟩ gX3_readEquals_X3_beginSum rfl hdX3_beginSum ⟨Nat.le_of_ble_eq_true rfl, Nat.le_of_ble_eq_true rfl⟩ (Nat.le_of_ble_eq_true rfl) rfl ⟨Nat.le_of_ble_eq_true rfl, Nat.le_of_ble_eq_true rfl⟩ rfl rfl dX3_readEquals_7 (fun s2 hp => ?_)
    have hp := hp.symm
    subst hp
    try dsimp only at h
    refine r_aload_n G 0 rfl rfl dX3_readEquals_10 ?_
    refine r_iconst G (v := 2) (by decide) dX3_readEquals_11 ?_
    obtain ⟨o3, e3, h⟩ := ob h
    refine r_callVv G [.int 2] (qX3_pass hE (2 : Int32) _ e3) ⟨72, 3, _, _, rfl, (cw_READER ad κ _), rfl⟩ gX3_readEquals_X3_pass rfl hdX3_pass ⟨Nat.le_of_ble_eq_true rfl, Nat.le_of_ble_eq_true rfl⟩ (Nat.le_of_ble_eq_true rfl) rfl ⟨Nat.le_of_ble_eq_true rfl, Nat.le_of_ble_eq_true rfl⟩ rfl rfl dX3_readEquals_12 (fun s3 hp => ?_)
    have hp := hp.symm
    subst hp
    try dsimp only at h
    refine r_goto G (tgt := 22) dX3_readEquals_15 (by decide) ?_
    exact hret _ _ _ _ _ dX3_readEquals_22 (Option.some.inj h).symm (Nat.le_of_ble_eq_true rfl) (Nat.le_of_ble_eq_true rfl)
abbrev rmX3_useFactor : Room := { frames := 1, cells := 0, slots := 0, locals := 26 }
set_option maxRecDepth 20000 in
theorem kX3_useFactor_X3 : ∀ w ∈ u_ws RX3 TX3 15, w ∈ wsX3_useFactor := by decide +kernel
set_option maxRecDepth 20000 in
theorem mX3_useFactor_f36 : Cond.fieldLink RX3 36 "SetCouncil$Reader" "partBegun" "[Z" ∈ wsX3_useFactor := by decide +kernel
set_option maxRecDepth 20000 in
theorem mX3_useFactor_f84 : Cond.fieldLink RX3 84 "SetCouncil$Reader" "open" "I" ∈ wsX3_useFactor := by decide +kernel
set_option maxRecDepth 20000 in
theorem mX3_useFactor_f29 : Cond.fieldLink RX3 29 "SetCouncil$Reader" "parts" "[LSetCouncil$MemberSet;" ∈ wsX3_useFactor := by decide +kernel
set_option maxHeartbeats 4000000 in
set_option maxRecDepth 100000 in
theorem qX3_useFactor {E : evT} {l : Launch} {D : va_G} {ad : Nat → Nat} {κ : Nat → ClassId} (hE : EvOk E) (p0 : Nat) (hp0 : p0 < 55) (s : cS) {o : (cS)} (h : fX3_useFactor p0 s = some o) : Cv l yX3_useFactor wsX3_useFactor rmX3_useFactor (cW ad κ) E D (tyA κ)  [.ref (ad 72), .ref (ad p0)] s (fun s2 => o = s2) := by
  rw [fX3_useFactor] at h
  refine s_v (cc := cX3_useFactor) (nL := 2) (own := RX3) hE (cW_WA ad κ) (by decide) rfl rfl (Nat.le_of_ble_eq_true rfl) (fun Γ G hret => ?_)
  refine r_aload_n G 0 rfl rfl dX3_useFactor_0 ?_
  refine r_get G (C := RX3) (T := TX3) (N := 15) kX3_useFactor_X3 72 (cw_READER ad κ _) rfl 6 (by decide) mX3_useFactor_f36 rfl rfl dX3_useFactor_1 ?_
  refine r_aload_n G 0 rfl rfl dX3_useFactor_4 ?_
  refine r_get G (C := RX3) (T := TX3) (N := 15) kX3_useFactor_X3 72 (cw_READER ad κ _) rfl 9 (by decide) mX3_useFactor_f84 rfl rfl dX3_useFactor_5 ?_
  obtain ⟨g1, h⟩ := og h
  refine r_zald G 77 4 (cw_BEGUN ad κ _) rfl (vin_in g1) dX3_useFactor_8 ?_
  refine r_if_eq G (tgt := 30) dX3_useFactor_9 (by decide) (fun c => ?_) (fun c => ?_)
  · rw [if_pos c] at h
    refine r_aload_n G 0 rfl rfl dX3_useFactor_30 ?_
    refine r_get G (C := RX3) (T := TX3) (N := 15) kX3_useFactor_X3 72 (cw_READER ad κ _) rfl 4 (by decide) mX3_useFactor_f29 rfl rfl dX3_useFactor_31 ?_
    refine r_aload_n G 0 rfl rfl dX3_useFactor_34 ?_
    refine r_get G (C := RX3) (T := TX3) (N := 15) kX3_useFactor_X3 72 (cw_READER ad κ _) rfl 9 (by decide) mX3_useFactor_f84 rfl rfl dX3_useFactor_35 ?_
    obtain ⟨g2, h⟩ := og h
    refine r_aldq G 75 0 (cw_PARTS ad κ _) rfl (vin_in g2) rfl dX3_useFactor_38 ?_
    refine r_aload_n G 1 rfl rfl dX3_useFactor_39 ?_
    obtain ⟨o3, e3, h⟩ := ob h
    refine r_callVv G [.ref (ad p0)] (qX2_become hE (43 + (sI s 5).toNatClampNeg) (by have := vin_lt g2; omega) p0 hp0 _ e3) ⟨(43 + (sI s 5).toNatClampNeg), 2, _, _, rfl, (cw_MS ad κ _ (by have := vin_lt g2; omega)), rfl⟩ gX3_useFactor_X2_become rfl hdX2_become ⟨Nat.le_of_ble_eq_true rfl, Nat.le_of_ble_eq_true rfl⟩ (Nat.le_of_ble_eq_true rfl) rfl ⟨Nat.le_of_ble_eq_true rfl, Nat.le_of_ble_eq_true rfl⟩ rfl rfl dX3_useFactor_40 (fun s3 hp => ?_)
    have hp := hp.symm
    subst hp
    try dsimp only at h
    refine r_aload_n G 0 rfl rfl dX3_useFactor_43 ?_
    refine r_get G (C := RX3) (T := TX3) (N := 15) kX3_useFactor_X3 72 (cw_READER ad κ _) rfl 6 (by decide) mX3_useFactor_f36 rfl rfl dX3_useFactor_44 ?_
    refine r_aload_n G 0 rfl rfl dX3_useFactor_47 ?_
    refine r_get G (C := RX3) (T := TX3) (N := 15) kX3_useFactor_X3 72 (cw_READER ad κ _) rfl 9 (by decide) mX3_useFactor_f84 rfl rfl dX3_useFactor_48 ?_
    refine r_iconst G (v := 1) (by decide) dX3_useFactor_51 ?_
    obtain ⟨g4, h⟩ := og h
    refine r_zast G 77 4 (cw_BEGUN ad κ _) rfl (vin_in g4) (cu_BEGUN ad κ _ _ _) dX3_useFactor_52 ?_
    exact hret _ _ _ _ _ dX3_useFactor_53 (Option.some.inj h).symm (Nat.le_of_ble_eq_true rfl) (Nat.le_of_ble_eq_true rfl)
  · rw [if_neg c] at h
    refine r_aload_n G 0 rfl rfl dX3_useFactor_12 ?_
    refine r_get G (C := RX3) (T := TX3) (N := 15) kX3_useFactor_X3 72 (cw_READER ad κ _) rfl 4 (by decide) mX3_useFactor_f29 rfl rfl dX3_useFactor_13 ?_
    refine r_aload_n G 0 rfl rfl dX3_useFactor_16 ?_
    refine r_get G (C := RX3) (T := TX3) (N := 15) kX3_useFactor_X3 72 (cw_READER ad κ _) rfl 9 (by decide) mX3_useFactor_f84 rfl rfl dX3_useFactor_17 ?_
    obtain ⟨g5, h⟩ := og h
    refine r_aldq G 75 0 (cw_PARTS ad κ _) rfl (vin_in g5) rfl dX3_useFactor_20 ?_
    refine r_iconst G (v := 1) (by decide) dX3_useFactor_21 ?_
    refine r_aload_n G 1 rfl rfl dX3_useFactor_22 ?_
    obtain ⟨o6, e6, h⟩ := ob h
    refine r_callVi G [.int 1, .ref (ad p0)] (qX2_combine hE (43 + (sI s 5).toNatClampNeg) (by have := vin_lt g5; omega) (1 : Int32) p0 hp0 _ e6) ⟨(43 + (sI s 5).toNatClampNeg), 2, _, _, rfl, (cw_MS ad κ _ (by have := vin_lt g5; omega)), rfl⟩ gX3_useFactor_X2_combine rfl hdX2_combine ⟨Nat.le_of_ble_eq_true rfl, Nat.le_of_ble_eq_true rfl⟩ (Nat.le_of_ble_eq_true rfl) rfl ⟨Nat.le_of_ble_eq_true rfl, Nat.le_of_ble_eq_true rfl⟩ rfl rfl dX3_useFactor_23 (fun r6 s6 hp hn6 => ?_)
    subst hp
    try dsimp only at h
    refine r_pop G rfl dX3_useFactor_26 ?_
    refine r_goto G (tgt := 53) dX3_useFactor_27 (by decide) ?_
    exact hret _ _ _ _ _ dX3_useFactor_53 (Option.some.inj h).symm (Nat.le_of_ble_eq_true rfl) (Nat.le_of_ble_eq_true rfl)
abbrev rmX3_openBracket : Room := { frames := 2, cells := 0, slots := 0, locals := 40 }
set_option maxRecDepth 20000 in
theorem kX3_openBracket_X3 : ∀ w ∈ u_ws RX3 TX3 15, w ∈ wsX3_openBracket := by decide +kernel
set_option maxRecDepth 20000 in
theorem mX3_openBracket_f84 : Cond.fieldLink RX3 84 "SetCouncil$Reader" "open" "I" ∈ wsX3_openBracket := by decide +kernel
set_option maxRecDepth 20000 in
theorem mX3_openBracket_f61 : Cond.fieldLink RX3 61 "SetCouncil$Reader" "at" "I" ∈ wsX3_openBracket := by decide +kernel
set_option maxHeartbeats 4000000 in
set_option maxRecDepth 100000 in
theorem qX3_openBracket {E : evT} {l : Launch} {D : va_G} {ad : Nat → Nat} {κ : Nat → ClassId} (hE : EvOk E) (s : cS) {o : (cS)} (h : fX3_openBracket s = some o) : Cv l yX3_openBracket wsX3_openBracket rmX3_openBracket (cW ad κ) E D (tyA κ)  [.ref (ad 72)] s (fun s2 => o = s2) := by
  rw [fX3_openBracket] at h
  refine s_v (cc := cX3_openBracket) (nL := 1) (own := RX3) hE (cW_WA ad κ) (by decide) rfl rfl (Nat.le_of_ble_eq_true rfl) (fun Γ G hret => ?_)
  refine r_aload_n G 0 rfl rfl dX3_openBracket_0 ?_
  refine r_get G (C := RX3) (T := TX3) (N := 15) kX3_openBracket_X3 72 (cw_READER ad κ _) rfl 9 (by decide) mX3_openBracket_f84 rfl rfl dX3_openBracket_1 ?_
  refine r_bipush G (v := 8) (by decide) dX3_openBracket_4 ?_
  refine r_icmp_lt G (tgt := 21) dX3_openBracket_6 (by decide) (fun c => ?_) (fun c => ?_)
  · rw [if_pos c] at h
    refine r_aload_n G 0 rfl rfl dX3_openBracket_21 ?_
    refine r_dup G rfl dX3_openBracket_22 ?_
    refine r_get G (C := RX3) (T := TX3) (N := 15) kX3_openBracket_X3 72 (cw_READER ad κ _) rfl 9 (by decide) mX3_openBracket_f84 rfl rfl dX3_openBracket_23 ?_
    refine r_iconst G (v := 1) (by decide) dX3_openBracket_26 ?_
    refine r_iadd G dX3_openBracket_27 ?_
    refine r_put G (C := RX3) (T := TX3) (N := 15) kX3_openBracket_X3 tyX3 tyX3_ok nmX3 72 (cw_READER ad κ _) rfl 9 (by decide) mX3_openBracket_f84 rfl rfl (tyX3_ok 9 (by decide)) rfl rfl (Nat.le_of_ble_eq_true rfl) (cu_Ropen ad κ _ _) dX3_openBracket_28 ?_
    refine r_aload_n G 0 rfl rfl dX3_openBracket_31 ?_
    obtain ⟨o1, e1, h⟩ := ob h
    refine r_callVv G [] (qX3_beginSum hE _ e1) ⟨72, 3, _, _, rfl, (cw_READER ad κ _), rfl⟩ gX3_openBracket_X3_beginSum rfl hdX3_beginSum ⟨Nat.le_of_ble_eq_true rfl, Nat.le_of_ble_eq_true rfl⟩ (Nat.le_of_ble_eq_true rfl) rfl ⟨Nat.le_of_ble_eq_true rfl, Nat.le_of_ble_eq_true rfl⟩ rfl rfl dX3_openBracket_32 (fun s1 hp => ?_)
    have hp := hp.symm
    subst hp
    try dsimp only at h
    refine r_aload_n G 0 rfl rfl dX3_openBracket_35 ?_
    refine r_iconst G (v := 2) (by decide) dX3_openBracket_36 ?_
    obtain ⟨o2, e2, h⟩ := ob h
    refine r_callVv G [.int 2] (qX3_pass hE (2 : Int32) _ e2) ⟨72, 3, _, _, rfl, (cw_READER ad κ _), rfl⟩ gX3_openBracket_X3_pass rfl hdX3_pass ⟨Nat.le_of_ble_eq_true rfl, Nat.le_of_ble_eq_true rfl⟩ (Nat.le_of_ble_eq_true rfl) rfl ⟨Nat.le_of_ble_eq_true rfl, Nat.le_of_ble_eq_true rfl⟩ rfl rfl dX3_openBracket_37 (fun s2 hp => ?_)
    have hp := hp.symm
    subst hp
    try dsimp only at h
    exact hret _ _ _ _ _ dX3_openBracket_40 (Option.some.inj h).symm (Nat.le_of_ble_eq_true rfl) (Nat.le_of_ble_eq_true rfl)
  · rw [if_neg c] at h
    refine r_aload_n G 0 rfl rfl dX3_openBracket_9 ?_
    refine r_iconst G (v := 2) (by decide) dX3_openBracket_10 ?_
    refine r_aload_n G 0 rfl rfl dX3_openBracket_11 ?_
    refine r_get G (C := RX3) (T := TX3) (N := 15) kX3_openBracket_X3 72 (cw_READER ad κ _) rfl 7 (by decide) mX3_openBracket_f61 rfl rfl dX3_openBracket_12 ?_
    obtain ⟨o3, e3, h⟩ := ob h
    refine r_callVv G [.int 2, .int (sI s 3)] (qX3_fail hE (2 : Int32) (sI s 3) _ e3) ⟨72, 3, _, _, rfl, (cw_READER ad κ _), rfl⟩ gX3_openBracket_X3_fail rfl hdX3_fail ⟨Nat.le_of_ble_eq_true rfl, Nat.le_of_ble_eq_true rfl⟩ (Nat.le_of_ble_eq_true rfl) rfl ⟨Nat.le_of_ble_eq_true rfl, Nat.le_of_ble_eq_true rfl⟩ rfl rfl dX3_openBracket_15 (fun s3 hp => ?_)
    have hp := hp.symm
    subst hp
    try dsimp only at h
    refine r_goto G (tgt := 40) dX3_openBracket_18 (by decide) ?_
    exact hret _ _ _ _ _ dX3_openBracket_40 (Option.some.inj h).symm (Nat.le_of_ble_eq_true rfl) (Nat.le_of_ble_eq_true rfl)
abbrev rmX3_readFactor : Room := { frames := 3, cells := 0, slots := 0, locals := 60 }
theorem hdX3_openBracket : yX3_openBracket.cls = RX3 ∧ yX3_openBracket.cls ≠ "java/lang/invoke/MethodHandle" ∧ yX3_openBracket.cls ≠ "java/lang/invoke/VarHandle" ∧ (parseMethodDescriptor yX3_openBracket.desc).map (fun d => d.parameters.length) = some 0 := by decide +kernel
set_option maxRecDepth 20000 in
theorem kX3_readFactor_X3 : ∀ w ∈ u_ws RX3 TX3 15, w ∈ wsX3_readFactor := by decide +kernel
set_option maxRecDepth 20000 in
theorem mX3_readFactor_f22 : Cond.fieldLink RX3 22 "SetCouncil$Reader" "braces" "LSetCouncil$MemberSet;" ∈ wsX3_readFactor := by decide +kernel
set_option maxRecDepth 20000 in
theorem mX3_readFactor_f17 : Cond.fieldLink RX3 17 "SetCouncil$Reader" "named" "[LSetCouncil$MemberSet;" ∈ wsX3_readFactor := by decide +kernel
theorem hdX3_useFactor : yX3_useFactor.cls = RX3 ∧ yX3_useFactor.cls ≠ "java/lang/invoke/MethodHandle" ∧ yX3_useFactor.cls ≠ "java/lang/invoke/VarHandle" ∧ (parseMethodDescriptor yX3_useFactor.desc).map (fun d => d.parameters.length) = some 1 := by decide +kernel
set_option maxHeartbeats 4000000 in
set_option maxRecDepth 100000 in
theorem qX3_readFactor {E : evT} {l : Launch} {D : va_G} {ad : Nat → Nat} {κ : Nat → ClassId} (hE : EvOk E) (p0 : Int32) (s : cS) {o : (cS)} (h : fX3_readFactor p0 s = some o) : Cv l yX3_readFactor wsX3_readFactor rmX3_readFactor (cW ad κ) E D (tyA κ)  [.ref (ad 72), .int p0] s (fun s2 => o = s2) := by
  rw [fX3_readFactor] at h
  refine s_v (cc := cX3_readFactor) (nL := 2) (own := RX3) hE (cW_WA ad κ) (by decide) rfl rfl (Nat.le_of_ble_eq_true rfl) (fun Γ G hret => ?_)
  refine r_iload_n G 1 rfl rfl dX3_readFactor_0 ?_
  refine r_callSi G [.int p0] (qX3_isName hE p0 _) gX3_readFactor_X3_isName rfl hdX3_isName ⟨Nat.le_of_ble_eq_true rfl, Nat.le_of_ble_eq_true rfl⟩ (Nat.le_of_ble_eq_true rfl) rfl ⟨Nat.le_of_ble_eq_true rfl, Nat.le_of_ble_eq_true rfl⟩ rfl rfl dX3_readFactor_1 (fun r1 s1 hp hn1 => ?_)
  obtain ⟨rfl, hs⟩ := hp
  have hs := hs.symm
  subst hs
  refine r_if_eq G (tgt := 28) dX3_readFactor_4 (by decide) (fun c => ?_) (fun c => ?_)
  · rw [if_pos c] at h
    refine r_iload_n G 1 rfl rfl dX3_readFactor_28 ?_
    refine r_bipush G (v := 123) (by decide) dX3_readFactor_29 ?_
    refine r_icmp_ne G (tgt := 49) dX3_readFactor_31 (by decide) (fun c => ?_) (fun c => ?_)
    · rw [if_neg c] at h
      refine r_iload_n G 1 rfl rfl dX3_readFactor_49 ?_
      refine r_bipush G (v := 40) (by decide) dX3_readFactor_50 ?_
      refine r_icmp_ne G (tgt := 62) dX3_readFactor_52 (by decide) (fun c => ?_) (fun c => ?_)
      · rw [if_neg c] at h
        refine r_aload_n G 0 rfl rfl dX3_readFactor_62 ?_
        obtain ⟨o2, e2, h⟩ := ob h
        refine r_callVv G [] (qX3_refuseByte hE _ e2) ⟨72, 3, _, _, rfl, (cw_READER ad κ _), rfl⟩ gX3_readFactor_X3_refuseByte rfl hdX3_refuseByte ⟨Nat.le_of_ble_eq_true rfl, Nat.le_of_ble_eq_true rfl⟩ (Nat.le_of_ble_eq_true rfl) rfl ⟨Nat.le_of_ble_eq_true rfl, Nat.le_of_ble_eq_true rfl⟩ rfl rfl dX3_readFactor_63 (fun s2 hp => ?_)
        have hp := hp.symm
        subst hp
        try dsimp only at h
        exact hret _ _ _ _ _ dX3_readFactor_66 (Option.some.inj h).symm (Nat.le_of_ble_eq_true rfl) (Nat.le_of_ble_eq_true rfl)
      · rw [if_pos c] at h
        refine r_aload_n G 0 rfl rfl dX3_readFactor_55 ?_
        obtain ⟨o3, e3, h⟩ := ob h
        refine r_callVv G [] (qX3_openBracket hE _ e3) ⟨72, 3, _, _, rfl, (cw_READER ad κ _), rfl⟩ gX3_readFactor_X3_openBracket rfl hdX3_openBracket ⟨Nat.le_of_ble_eq_true rfl, Nat.le_of_ble_eq_true rfl⟩ (Nat.le_of_ble_eq_true rfl) rfl ⟨Nat.le_of_ble_eq_true rfl, Nat.le_of_ble_eq_true rfl⟩ rfl rfl dX3_readFactor_56 (fun s3 hp => ?_)
        have hp := hp.symm
        subst hp
        try dsimp only at h
        refine r_goto G (tgt := 66) dX3_readFactor_59 (by decide) ?_
        exact hret _ _ _ _ _ dX3_readFactor_66 (Option.some.inj h).symm (Nat.le_of_ble_eq_true rfl) (Nat.le_of_ble_eq_true rfl)
    · rw [if_pos c] at h
      refine r_aload_n G 0 rfl rfl dX3_readFactor_34 ?_
      refine r_get G (C := RX3) (T := TX3) (N := 15) kX3_readFactor_X3 72 (cw_READER ad κ _) rfl 2 (by decide) mX3_readFactor_f22 rfl rfl dX3_readFactor_35 ?_
      obtain ⟨o4, e4, h⟩ := ob h
      refine r_callVv G [] (qX2_empty hE 33 (by decide) _ e4) ⟨33, 2, _, _, rfl, (cw_MS ad κ _ (by decide)), rfl⟩ gX3_readFactor_X2_empty rfl hdX2_empty ⟨Nat.le_of_ble_eq_true rfl, Nat.le_of_ble_eq_true rfl⟩ (Nat.le_of_ble_eq_true rfl) rfl ⟨Nat.le_of_ble_eq_true rfl, Nat.le_of_ble_eq_true rfl⟩ rfl rfl dX3_readFactor_38 (fun s4 hp => ?_)
      have hp := hp.symm
      subst hp
      try dsimp only at h
      refine r_aload_n G 0 rfl rfl dX3_readFactor_41 ?_
      refine r_iconst G (v := 4) (by decide) dX3_readFactor_42 ?_
      obtain ⟨o5, e5, h⟩ := ob h
      refine r_callVv G [.int 4] (qX3_pass hE (4 : Int32) _ e5) ⟨72, 3, _, _, rfl, (cw_READER ad κ _), rfl⟩ gX3_readFactor_X3_pass rfl hdX3_pass ⟨Nat.le_of_ble_eq_true rfl, Nat.le_of_ble_eq_true rfl⟩ (Nat.le_of_ble_eq_true rfl) rfl ⟨Nat.le_of_ble_eq_true rfl, Nat.le_of_ble_eq_true rfl⟩ rfl rfl dX3_readFactor_43 (fun s5 hp => ?_)
      have hp := hp.symm
      subst hp
      try dsimp only at h
      refine r_goto G (tgt := 66) dX3_readFactor_46 (by decide) ?_
      exact hret _ _ _ _ _ dX3_readFactor_66 (Option.some.inj h).symm (Nat.le_of_ble_eq_true rfl) (Nat.le_of_ble_eq_true rfl)
  · rw [if_neg c] at h
    refine r_aload_n G 0 rfl rfl dX3_readFactor_7 ?_
    refine r_aload_n G 0 rfl rfl dX3_readFactor_8 ?_
    refine r_get G (C := RX3) (T := TX3) (N := 15) kX3_readFactor_X3 72 (cw_READER ad κ _) rfl 1 (by decide) mX3_readFactor_f17 rfl rfl dX3_readFactor_9 ?_
    refine r_iload_n G 1 rfl rfl dX3_readFactor_12 ?_
    refine r_bipush G (v := 97) (by decide) dX3_readFactor_13 ?_
    refine r_isub G dX3_readFactor_15 ?_
    obtain ⟨g6, h⟩ := og h
    refine r_aldq G 73 0 (cw_NAMED ad κ _) rfl (vin_in g6) rfl dX3_readFactor_16 ?_
    obtain ⟨o7, e7, h⟩ := ob h
    refine r_callVv G [.ref (ad (25 + (p0 - 97).toNatClampNeg))] (qX3_useFactor hE (25 + (p0 - 97).toNatClampNeg) (by have := vin_lt g6; omega) _ e7) ⟨72, 3, _, _, rfl, (cw_READER ad κ _), rfl⟩ gX3_readFactor_X3_useFactor rfl hdX3_useFactor ⟨Nat.le_of_ble_eq_true rfl, Nat.le_of_ble_eq_true rfl⟩ (Nat.le_of_ble_eq_true rfl) rfl ⟨Nat.le_of_ble_eq_true rfl, Nat.le_of_ble_eq_true rfl⟩ rfl rfl dX3_readFactor_17 (fun s7 hp => ?_)
    have hp := hp.symm
    subst hp
    try dsimp only at h
    refine r_aload_n G 0 rfl rfl dX3_readFactor_20 ?_
    refine r_iconst G (v := 3) (by decide) dX3_readFactor_21 ?_
    obtain ⟨o8, e8, h⟩ := ob h
    refine r_callVv G [.int 3] (qX3_pass hE (3 : Int32) _ e8) ⟨72, 3, _, _, rfl, (cw_READER ad κ _), rfl⟩ gX3_readFactor_X3_pass rfl hdX3_pass ⟨Nat.le_of_ble_eq_true rfl, Nat.le_of_ble_eq_true rfl⟩ (Nat.le_of_ble_eq_true rfl) rfl ⟨Nat.le_of_ble_eq_true rfl, Nat.le_of_ble_eq_true rfl⟩ rfl rfl dX3_readFactor_22 (fun s8 hp => ?_)
    have hp := hp.symm
    subst hp
    try dsimp only at h
    refine r_goto G (tgt := 66) dX3_readFactor_25 (by decide) ?_
    exact hret _ _ _ _ _ dX3_readFactor_66 (Option.some.inj h).symm (Nat.le_of_ble_eq_true rfl) (Nat.le_of_ble_eq_true rfl)
abbrev rmX3_endPart : Room := { frames := 1, cells := 0, slots := 0, locals := 26 }
set_option maxRecDepth 20000 in
theorem kX3_endPart_X3 : ∀ w ∈ u_ws RX3 TX3 15, w ∈ wsX3_endPart := by decide +kernel
set_option maxRecDepth 20000 in
theorem mX3_endPart_f26 : Cond.fieldLink RX3 26 "SetCouncil$Reader" "sums" "[LSetCouncil$MemberSet;" ∈ wsX3_endPart := by decide +kernel
set_option maxRecDepth 20000 in
theorem mX3_endPart_f84 : Cond.fieldLink RX3 84 "SetCouncil$Reader" "open" "I" ∈ wsX3_endPart := by decide +kernel
set_option maxRecDepth 20000 in
theorem mX3_endPart_f32 : Cond.fieldLink RX3 32 "SetCouncil$Reader" "sumSigns" "[I" ∈ wsX3_endPart := by decide +kernel
set_option maxRecDepth 20000 in
theorem mX3_endPart_f29 : Cond.fieldLink RX3 29 "SetCouncil$Reader" "parts" "[LSetCouncil$MemberSet;" ∈ wsX3_endPart := by decide +kernel
set_option maxRecDepth 20000 in
theorem mX3_endPart_f36 : Cond.fieldLink RX3 36 "SetCouncil$Reader" "partBegun" "[Z" ∈ wsX3_endPart := by decide +kernel
set_option maxHeartbeats 4000000 in
set_option maxRecDepth 100000 in
theorem qX3_endPart {E : evT} {l : Launch} {D : va_G} {ad : Nat → Nat} {κ : Nat → ClassId} (hE : EvOk E) (p0 : Int32) (s : cS) {o : (cS)} (h : fX3_endPart p0 s = some o) : Cv l yX3_endPart wsX3_endPart rmX3_endPart (cW ad κ) E D (tyA κ)  [.ref (ad 72), .int p0] s (fun s2 => o = s2) := by
  rw [fX3_endPart] at h
  refine s_v (cc := cX3_endPart) (nL := 2) (own := RX3) hE (cW_WA ad κ) (by decide) rfl rfl (Nat.le_of_ble_eq_true rfl) (fun Γ G hret => ?_)
  refine r_aload_n G 0 rfl rfl dX3_endPart_0 ?_
  refine r_get G (C := RX3) (T := TX3) (N := 15) kX3_endPart_X3 72 (cw_READER ad κ _) rfl 3 (by decide) mX3_endPart_f26 rfl rfl dX3_endPart_1 ?_
  refine r_aload_n G 0 rfl rfl dX3_endPart_4 ?_
  refine r_get G (C := RX3) (T := TX3) (N := 15) kX3_endPart_X3 72 (cw_READER ad κ _) rfl 9 (by decide) mX3_endPart_f84 rfl rfl dX3_endPart_5 ?_
  obtain ⟨g1, h⟩ := og h
  refine r_aldq G 74 0 (cw_SUMS ad κ _) rfl (vin_in g1) rfl dX3_endPart_8 ?_
  refine r_aload_n G 0 rfl rfl dX3_endPart_9 ?_
  refine r_get G (C := RX3) (T := TX3) (N := 15) kX3_endPart_X3 72 (cw_READER ad κ _) rfl 5 (by decide) mX3_endPart_f32 rfl rfl dX3_endPart_10 ?_
  refine r_aload_n G 0 rfl rfl dX3_endPart_13 ?_
  refine r_get G (C := RX3) (T := TX3) (N := 15) kX3_endPart_X3 72 (cw_READER ad κ _) rfl 9 (by decide) mX3_endPart_f84 rfl rfl dX3_endPart_14 ?_
  obtain ⟨g2, h⟩ := og h
  refine r_iald G 76 3 (cw_SIGNS ad κ _) rfl (vin_in g2) dX3_endPart_17 ?_
  refine r_aload_n G 0 rfl rfl dX3_endPart_18 ?_
  refine r_get G (C := RX3) (T := TX3) (N := 15) kX3_endPart_X3 72 (cw_READER ad κ _) rfl 4 (by decide) mX3_endPart_f29 rfl rfl dX3_endPart_19 ?_
  refine r_aload_n G 0 rfl rfl dX3_endPart_22 ?_
  refine r_get G (C := RX3) (T := TX3) (N := 15) kX3_endPart_X3 72 (cw_READER ad κ _) rfl 9 (by decide) mX3_endPart_f84 rfl rfl dX3_endPart_23 ?_
  obtain ⟨g3, h⟩ := og h
  refine r_aldq G 75 0 (cw_PARTS ad κ _) rfl (vin_in g3) rfl dX3_endPart_26 ?_
  obtain ⟨o4, e4, h⟩ := ob h
  refine r_callVi G [.int (sI s (11 + 2 * (sI s 5).toNatClampNeg)), .ref (ad (43 + (sI s 5).toNatClampNeg))] (qX2_combine hE (34 + (sI s 5).toNatClampNeg) (by have := vin_lt g1; omega) (sI s (11 + 2 * (sI s 5).toNatClampNeg)) (43 + (sI s 5).toNatClampNeg) (by have := vin_lt g3; omega) _ e4) ⟨(34 + (sI s 5).toNatClampNeg), 2, _, _, rfl, (cw_MS ad κ _ (by have := vin_lt g1; omega)), rfl⟩ gX3_endPart_X2_combine rfl hdX2_combine ⟨Nat.le_of_ble_eq_true rfl, Nat.le_of_ble_eq_true rfl⟩ (Nat.le_of_ble_eq_true rfl) rfl ⟨Nat.le_of_ble_eq_true rfl, Nat.le_of_ble_eq_true rfl⟩ rfl rfl dX3_endPart_27 (fun r4 s4 hp hn4 => ?_)
  subst hp
  try dsimp only at h
  refine r_pop G rfl dX3_endPart_30 ?_
  refine r_aload_n G 0 rfl rfl dX3_endPart_31 ?_
  refine r_get G (C := RX3) (T := TX3) (N := 15) kX3_endPart_X3 72 (cw_READER ad κ _) rfl 5 (by decide) mX3_endPart_f32 rfl rfl dX3_endPart_32 ?_
  refine r_aload_n G 0 rfl rfl dX3_endPart_35 ?_
  refine r_get G (C := RX3) (T := TX3) (N := 15) kX3_endPart_X3 72 (cw_READER ad κ _) rfl 9 (by decide) mX3_endPart_f84 rfl rfl dX3_endPart_36 ?_
  refine r_iload_n G 1 rfl rfl dX3_endPart_39 ?_
  obtain ⟨g5, h⟩ := og h
  refine r_iast G 76 3 (cw_SIGNS ad κ _) rfl (vin_in g5) (cu_SIGN ad κ _ _ _) dX3_endPart_40 ?_
  refine r_aload_n G 0 rfl rfl dX3_endPart_41 ?_
  refine r_get G (C := RX3) (T := TX3) (N := 15) kX3_endPart_X3 72 (cw_READER ad κ _) rfl 6 (by decide) mX3_endPart_f36 rfl rfl dX3_endPart_42 ?_
  refine r_aload_n G 0 rfl rfl dX3_endPart_45 ?_
  refine r_get G (C := RX3) (T := TX3) (N := 15) kX3_endPart_X3 72 (cw_READER ad κ _) rfl 9 (by decide) mX3_endPart_f84 rfl rfl dX3_endPart_46 ?_
  refine r_iconst G (v := 0) (by decide) dX3_endPart_49 ?_
  obtain ⟨g6, h⟩ := og h
  refine r_zast G 77 4 (cw_BEGUN ad κ _) rfl (vin_in g6) (cu_BEGUN ad κ _ _ _) dX3_endPart_50 ?_
  exact hret _ _ _ _ _ dX3_endPart_51 (Option.some.inj h).symm (Nat.le_of_ble_eq_true rfl) (Nat.le_of_ble_eq_true rfl)
abbrev rmX3_closeBracket : Room := { frames := 2, cells := 0, slots := 0, locals := 47 }
theorem hdX3_endPart : yX3_endPart.cls = RX3 ∧ yX3_endPart.cls ≠ "java/lang/invoke/MethodHandle" ∧ yX3_endPart.cls ≠ "java/lang/invoke/VarHandle" ∧ (parseMethodDescriptor yX3_endPart.desc).map (fun d => d.parameters.length) = some 1 := by decide +kernel
set_option maxRecDepth 20000 in
theorem kX3_closeBracket_X3 : ∀ w ∈ u_ws RX3 TX3 15, w ∈ wsX3_closeBracket := by decide +kernel
set_option maxRecDepth 20000 in
theorem mX3_closeBracket_f26 : Cond.fieldLink RX3 26 "SetCouncil$Reader" "sums" "[LSetCouncil$MemberSet;" ∈ wsX3_closeBracket := by decide +kernel
set_option maxRecDepth 20000 in
theorem mX3_closeBracket_f84 : Cond.fieldLink RX3 84 "SetCouncil$Reader" "open" "I" ∈ wsX3_closeBracket := by decide +kernel
set_option maxHeartbeats 4000000 in
set_option maxRecDepth 100000 in
theorem qX3_closeBracket {E : evT} {l : Launch} {D : va_G} {ad : Nat → Nat} {κ : Nat → ClassId} (hE : EvOk E) (s : cS) {o : (cS)} (h : fX3_closeBracket s = some o) : Cv l yX3_closeBracket wsX3_closeBracket rmX3_closeBracket (cW ad κ) E D (tyA κ)  [.ref (ad 72)] s (fun s2 => o = s2) := by
  rw [fX3_closeBracket] at h
  refine s_v (cc := cX3_closeBracket) (nL := 2) (own := RX3) hE (cW_WA ad κ) (by decide) rfl rfl (Nat.le_of_ble_eq_true rfl) (fun Γ G hret => ?_)
  refine r_aload_n G 0 rfl rfl dX3_closeBracket_0 ?_
  refine r_iconst G (v := 0) (by decide) dX3_closeBracket_1 ?_
  obtain ⟨o1, e1, h⟩ := ob h
  refine r_callVv G [.int 0] (qX3_endPart hE (0 : Int32) _ e1) ⟨72, 3, _, _, rfl, (cw_READER ad κ _), rfl⟩ gX3_closeBracket_X3_endPart rfl hdX3_endPart ⟨Nat.le_of_ble_eq_true rfl, Nat.le_of_ble_eq_true rfl⟩ (Nat.le_of_ble_eq_true rfl) rfl ⟨Nat.le_of_ble_eq_true rfl, Nat.le_of_ble_eq_true rfl⟩ rfl rfl dX3_closeBracket_2 (fun s1 hp => ?_)
  have hp := hp.symm
  subst hp
  try dsimp only at h
  refine r_aload_n G 0 rfl rfl dX3_closeBracket_5 ?_
  refine r_get G (C := RX3) (T := TX3) (N := 15) kX3_closeBracket_X3 72 (cw_READER ad κ _) rfl 3 (by decide) mX3_closeBracket_f26 rfl rfl dX3_closeBracket_6 ?_
  refine r_aload_n G 0 rfl rfl dX3_closeBracket_9 ?_
  refine r_get G (C := RX3) (T := TX3) (N := 15) kX3_closeBracket_X3 72 (cw_READER ad κ _) rfl 9 (by decide) mX3_closeBracket_f84 rfl rfl dX3_closeBracket_10 ?_
  obtain ⟨g2, h⟩ := og h
  refine r_aldq G 74 0 (cw_SUMS ad κ _) rfl (vin_in g2) rfl dX3_closeBracket_13 ?_
  refine r_astore_n G [1, 0] rfl rfl (by decide) dX3_closeBracket_14 ?_
  refine r_aload_n G 0 rfl rfl dX3_closeBracket_15 ?_
  refine r_dup G rfl dX3_closeBracket_16 ?_
  refine r_get G (C := RX3) (T := TX3) (N := 15) kX3_closeBracket_X3 72 (cw_READER ad κ _) rfl 9 (by decide) mX3_closeBracket_f84 rfl rfl dX3_closeBracket_17 ?_
  refine r_iconst G (v := 1) (by decide) dX3_closeBracket_20 ?_
  refine r_isub G dX3_closeBracket_21 ?_
  refine r_put G (C := RX3) (T := TX3) (N := 15) kX3_closeBracket_X3 tyX3 tyX3_ok nmX3 72 (cw_READER ad κ _) rfl 9 (by decide) mX3_closeBracket_f84 rfl rfl (tyX3_ok 9 (by decide)) rfl rfl (Nat.le_of_ble_eq_true rfl) (cu_Ropen ad κ _ _) dX3_closeBracket_22 ?_
  refine r_aload_n G 0 rfl rfl dX3_closeBracket_25 ?_
  refine r_aload_n G 1 rfl rfl dX3_closeBracket_26 ?_
  obtain ⟨o3, e3, h⟩ := ob h
  refine r_callVv G [.ref (ad (34 + (sI s1 5).toNatClampNeg))] (qX3_useFactor hE (34 + (sI s1 5).toNatClampNeg) (by have := vin_lt g2; omega) _ e3) ⟨72, 3, _, _, rfl, (cw_READER ad κ _), rfl⟩ gX3_closeBracket_X3_useFactor rfl hdX3_useFactor ⟨Nat.le_of_ble_eq_true rfl, Nat.le_of_ble_eq_true rfl⟩ (Nat.le_of_ble_eq_true rfl) rfl ⟨Nat.le_of_ble_eq_true rfl, Nat.le_of_ble_eq_true rfl⟩ rfl rfl dX3_closeBracket_27 (fun s3 hp => ?_)
  have hp := hp.symm
  subst hp
  try dsimp only at h
  refine r_aload_n G 0 rfl rfl dX3_closeBracket_30 ?_
  refine r_iconst G (v := 3) (by decide) dX3_closeBracket_31 ?_
  obtain ⟨o4, e4, h⟩ := ob h
  refine r_callVv G [.int 3] (qX3_pass hE (3 : Int32) _ e4) ⟨72, 3, _, _, rfl, (cw_READER ad κ _), rfl⟩ gX3_closeBracket_X3_pass rfl hdX3_pass ⟨Nat.le_of_ble_eq_true rfl, Nat.le_of_ble_eq_true rfl⟩ (Nat.le_of_ble_eq_true rfl) rfl ⟨Nat.le_of_ble_eq_true rfl, Nat.le_of_ble_eq_true rfl⟩ rfl rfl dX3_closeBracket_32 (fun s4 hp => ?_)
  have hp := hp.symm
  subst hp
  try dsimp only at h
  exact hret _ _ _ _ _ dX3_closeBracket_35 (Option.some.inj h).symm (Nat.le_of_ble_eq_true rfl) (Nat.le_of_ble_eq_true rfl)
abbrev rmX3_endStatement : Room := { frames := 2, cells := 0, slots := 0, locals := 47 }
set_option maxRecDepth 20000 in
theorem kX3_endStatement_X3 : ∀ w ∈ u_ws RX3 TX3 15, w ∈ wsX3_endStatement := by decide +kernel
set_option maxRecDepth 20000 in
theorem mX3_endStatement_f17 : Cond.fieldLink RX3 17 "SetCouncil$Reader" "named" "[LSetCouncil$MemberSet;" ∈ wsX3_endStatement := by decide +kernel
set_option maxRecDepth 20000 in
theorem mX3_endStatement_f122 : Cond.fieldLink RX3 122 "SetCouncil$Reader" "target" "I" ∈ wsX3_endStatement := by decide +kernel
set_option maxRecDepth 20000 in
theorem mX3_endStatement_f26 : Cond.fieldLink RX3 26 "SetCouncil$Reader" "sums" "[LSetCouncil$MemberSet;" ∈ wsX3_endStatement := by decide +kernel
set_option maxRecDepth 20000 in
theorem mX3_endStatement_f47 : Cond.fieldLink RX3 47 "SetCouncil$Reader" "statements" "I" ∈ wsX3_endStatement := by decide +kernel
set_option maxHeartbeats 4000000 in
set_option maxRecDepth 100000 in
theorem qX3_endStatement {E : evT} {l : Launch} {D : va_G} {ad : Nat → Nat} {κ : Nat → ClassId} (hE : EvOk E) (s : cS) {o : (cS)} (h : fX3_endStatement s = some o) : Cv l yX3_endStatement wsX3_endStatement rmX3_endStatement (cW ad κ) E D (tyA κ)  [.ref (ad 72)] s (fun s2 => o = s2) := by
  rw [fX3_endStatement] at h
  refine s_v (cc := cX3_endStatement) (nL := 1) (own := RX3) hE (cW_WA ad κ) (by decide) rfl rfl (Nat.le_of_ble_eq_true rfl) (fun Γ G hret => ?_)
  refine r_aload_n G 0 rfl rfl dX3_endStatement_0 ?_
  refine r_iconst G (v := 0) (by decide) dX3_endStatement_1 ?_
  obtain ⟨o1, e1, h⟩ := ob h
  refine r_callVv G [.int 0] (qX3_endPart hE (0 : Int32) _ e1) ⟨72, 3, _, _, rfl, (cw_READER ad κ _), rfl⟩ gX3_endStatement_X3_endPart rfl hdX3_endPart ⟨Nat.le_of_ble_eq_true rfl, Nat.le_of_ble_eq_true rfl⟩ (Nat.le_of_ble_eq_true rfl) rfl ⟨Nat.le_of_ble_eq_true rfl, Nat.le_of_ble_eq_true rfl⟩ rfl rfl dX3_endStatement_2 (fun s1 hp => ?_)
  have hp := hp.symm
  subst hp
  try dsimp only at h
  refine r_aload_n G 0 rfl rfl dX3_endStatement_5 ?_
  refine r_get G (C := RX3) (T := TX3) (N := 15) kX3_endStatement_X3 72 (cw_READER ad κ _) rfl 1 (by decide) mX3_endStatement_f17 rfl rfl dX3_endStatement_6 ?_
  refine r_aload_n G 0 rfl rfl dX3_endStatement_9 ?_
  refine r_get G (C := RX3) (T := TX3) (N := 15) kX3_endStatement_X3 72 (cw_READER ad κ _) rfl 10 (by decide) mX3_endStatement_f122 rfl rfl dX3_endStatement_10 ?_
  obtain ⟨g2, h⟩ := og h
  refine r_aldq G 73 0 (cw_NAMED ad κ _) rfl (vin_in g2) rfl dX3_endStatement_13 ?_
  refine r_aload_n G 0 rfl rfl dX3_endStatement_14 ?_
  refine r_get G (C := RX3) (T := TX3) (N := 15) kX3_endStatement_X3 72 (cw_READER ad κ _) rfl 3 (by decide) mX3_endStatement_f26 rfl rfl dX3_endStatement_15 ?_
  refine r_iconst G (v := 0) (by decide) dX3_endStatement_18 ?_
  obtain ⟨g3, h⟩ := og h
  refine r_aldq G 74 0 (cw_SUMS ad κ _) rfl (vin_in g3) rfl dX3_endStatement_19 ?_
  obtain ⟨o4, e4, h⟩ := ob h
  refine r_callVv G [.ref (ad (34 + (0 : Int32).toNatClampNeg))] (qX2_become hE (25 + (sI s1 6).toNatClampNeg) (by have := vin_lt g2; omega) (34 + (0 : Int32).toNatClampNeg) (by have := vin_lt g3; omega) _ e4) ⟨(25 + (sI s1 6).toNatClampNeg), 2, _, _, rfl, (cw_MS ad κ _ (by have := vin_lt g2; omega)), rfl⟩ gX3_endStatement_X2_become rfl hdX2_become ⟨Nat.le_of_ble_eq_true rfl, Nat.le_of_ble_eq_true rfl⟩ (Nat.le_of_ble_eq_true rfl) rfl ⟨Nat.le_of_ble_eq_true rfl, Nat.le_of_ble_eq_true rfl⟩ rfl rfl dX3_endStatement_20 (fun s4 hp => ?_)
  have hp := hp.symm
  subst hp
  try dsimp only at h
  refine r_aload_n G 0 rfl rfl dX3_endStatement_23 ?_
  refine r_dup G rfl dX3_endStatement_24 ?_
  refine r_get G (C := RX3) (T := TX3) (N := 15) kX3_endStatement_X3 72 (cw_READER ad κ _) rfl 12 (by decide) mX3_endStatement_f47 rfl rfl dX3_endStatement_25 ?_
  refine r_iconst G (v := 1) (by decide) dX3_endStatement_28 ?_
  refine r_iadd G dX3_endStatement_29 ?_
  refine r_put G (C := RX3) (T := TX3) (N := 15) kX3_endStatement_X3 tyX3 tyX3_ok nmX3 72 (cw_READER ad κ _) rfl 12 (by decide) mX3_endStatement_f47 rfl rfl (tyX3_ok 12 (by decide)) rfl rfl (Nat.le_of_ble_eq_true rfl) (cu_Rstatements ad κ _ _) dX3_endStatement_30 ?_
  refine r_aload_n G 0 rfl rfl dX3_endStatement_33 ?_
  refine r_iconst G (v := 0) (by decide) dX3_endStatement_34 ?_
  obtain ⟨o5, e5, h⟩ := ob h
  refine r_callVv G [.int 0] (qX3_pass hE (0 : Int32) _ e5) ⟨72, 3, _, _, rfl, (cw_READER ad κ _), rfl⟩ gX3_endStatement_X3_pass rfl hdX3_pass ⟨Nat.le_of_ble_eq_true rfl, Nat.le_of_ble_eq_true rfl⟩ (Nat.le_of_ble_eq_true rfl) rfl ⟨Nat.le_of_ble_eq_true rfl, Nat.le_of_ble_eq_true rfl⟩ rfl rfl dX3_endStatement_35 (fun s5 hp => ?_)
  have hp := hp.symm
  subst hp
  try dsimp only at h
  exact hret _ _ _ _ _ dX3_endStatement_38 (Option.some.inj h).symm (Nat.le_of_ble_eq_true rfl) (Nat.le_of_ble_eq_true rfl)
abbrev rmX3_readBehindFactor : Room := { frames := 3, cells := 0, slots := 0, locals := 68 }
set_option maxRecDepth 20000 in
theorem kX3_readBehindFactor_X3 : ∀ w ∈ u_ws RX3 TX3 15, w ∈ wsX3_readBehindFactor := by decide +kernel
set_option maxRecDepth 20000 in
theorem mX3_readBehindFactor_f84 : Cond.fieldLink RX3 84 "SetCouncil$Reader" "open" "I" ∈ wsX3_readBehindFactor := by decide +kernel
theorem hdX3_endStatement : yX3_endStatement.cls = RX3 ∧ yX3_endStatement.cls ≠ "java/lang/invoke/MethodHandle" ∧ yX3_endStatement.cls ≠ "java/lang/invoke/VarHandle" ∧ (parseMethodDescriptor yX3_endStatement.desc).map (fun d => d.parameters.length) = some 0 := by decide +kernel
theorem hdX3_closeBracket : yX3_closeBracket.cls = RX3 ∧ yX3_closeBracket.cls ≠ "java/lang/invoke/MethodHandle" ∧ yX3_closeBracket.cls ≠ "java/lang/invoke/VarHandle" ∧ (parseMethodDescriptor yX3_closeBracket.desc).map (fun d => d.parameters.length) = some 0 := by decide +kernel
set_option maxHeartbeats 4000000 in
set_option maxRecDepth 100000 in
theorem qX3_readBehindFactor {E : evT} {l : Launch} {D : va_G} {ad : Nat → Nat} {κ : Nat → ClassId} (hE : EvOk E) (p0 : Int32) (s : cS) {o : (cS)} (h : fX3_readBehindFactor p0 s = some o) : Cv l yX3_readBehindFactor wsX3_readBehindFactor rmX3_readBehindFactor (cW ad κ) E D (tyA κ)  [.ref (ad 72), .int p0] s (fun s2 => o = s2) := by
  rw [fX3_readBehindFactor] at h
  refine s_v (cc := cX3_readBehindFactor) (nL := 2) (own := RX3) hE (cW_WA ad κ) (by decide) rfl rfl (Nat.le_of_ble_eq_true rfl) (fun Γ G hret => ?_)
  refine r_iload_n G 1 rfl rfl dX3_readBehindFactor_0 ?_
  refine r_bipush G (v := 38) (by decide) dX3_readBehindFactor_1 ?_
  refine r_icmp_ne G (tgt := 14) dX3_readBehindFactor_3 (by decide) (fun c => ?_) (fun c => ?_)
  · rw [if_neg c] at h
    refine r_iload_n G 1 rfl rfl dX3_readBehindFactor_14 ?_
    refine r_bipush G (v := 124) (by decide) dX3_readBehindFactor_15 ?_
    refine r_icmp_ne G (tgt := 33) dX3_readBehindFactor_17 (by decide) (fun c => ?_) (fun c => ?_)
    · rw [if_neg c] at h
      refine r_iload_n G 1 rfl rfl dX3_readBehindFactor_33 ?_
      refine r_bipush G (v := 45) (by decide) dX3_readBehindFactor_34 ?_
      refine r_icmp_ne G (tgt := 52) dX3_readBehindFactor_36 (by decide) (fun c => ?_) (fun c => ?_)
      · rw [if_neg c] at h
        refine r_iload_n G 1 rfl rfl dX3_readBehindFactor_52 ?_
        refine r_bipush G (v := 94) (by decide) dX3_readBehindFactor_53 ?_
        refine r_icmp_ne G (tgt := 71) dX3_readBehindFactor_55 (by decide) (fun c => ?_) (fun c => ?_)
        · rw [if_neg c] at h
          refine r_iload_n G 1 rfl rfl dX3_readBehindFactor_71 ?_
          refine r_bipush G (v := 41) (by decide) dX3_readBehindFactor_72 ?_
          refine r_icmp_ne G (tgt := 91) dX3_readBehindFactor_74 (by decide) (fun c => ?_) (fun c => ?_)
          · rw [if_neg c] at h
            refine r_iload_n G 1 rfl rfl dX3_readBehindFactor_91 ?_
            refine r_bipush G (v := 59) (by decide) dX3_readBehindFactor_92 ?_
            refine r_icmp_ne G (tgt := 111) dX3_readBehindFactor_94 (by decide) (fun c => ?_) (fun c => ?_)
            · rw [if_neg c] at h
              refine r_aload_n G 0 rfl rfl dX3_readBehindFactor_111 ?_
              obtain ⟨o1, e1, h⟩ := ob h
              refine r_callVv G [] (qX3_refuseByte hE _ e1) ⟨72, 3, _, _, rfl, (cw_READER ad κ _), rfl⟩ gX3_readBehindFactor_X3_refuseByte rfl hdX3_refuseByte ⟨Nat.le_of_ble_eq_true rfl, Nat.le_of_ble_eq_true rfl⟩ (Nat.le_of_ble_eq_true rfl) rfl ⟨Nat.le_of_ble_eq_true rfl, Nat.le_of_ble_eq_true rfl⟩ rfl rfl dX3_readBehindFactor_112 (fun s1 hp => ?_)
              have hp := hp.symm
              subst hp
              try dsimp only at h
              exact hret _ _ _ _ _ dX3_readBehindFactor_115 (Option.some.inj h).symm (Nat.le_of_ble_eq_true rfl) (Nat.le_of_ble_eq_true rfl)
            · rw [if_pos c] at h
              refine r_aload_n G 0 rfl rfl dX3_readBehindFactor_97 ?_
              refine r_get G (C := RX3) (T := TX3) (N := 15) kX3_readBehindFactor_X3 72 (cw_READER ad κ _) rfl 9 (by decide) mX3_readBehindFactor_f84 rfl rfl dX3_readBehindFactor_98 ?_
              refine r_if_ne G (tgt := 111) dX3_readBehindFactor_101 (by decide) (fun c => ?_) (fun c => ?_)
              · rw [if_neg c] at h
                refine r_aload_n G 0 rfl rfl dX3_readBehindFactor_111 ?_
                obtain ⟨o2, e2, h⟩ := ob h
                refine r_callVv G [] (qX3_refuseByte hE _ e2) ⟨72, 3, _, _, rfl, (cw_READER ad κ _), rfl⟩ gX3_readBehindFactor_X3_refuseByte rfl hdX3_refuseByte ⟨Nat.le_of_ble_eq_true rfl, Nat.le_of_ble_eq_true rfl⟩ (Nat.le_of_ble_eq_true rfl) rfl ⟨Nat.le_of_ble_eq_true rfl, Nat.le_of_ble_eq_true rfl⟩ rfl rfl dX3_readBehindFactor_112 (fun s2 hp => ?_)
                have hp := hp.symm
                subst hp
                try dsimp only at h
                exact hret _ _ _ _ _ dX3_readBehindFactor_115 (Option.some.inj h).symm (Nat.le_of_ble_eq_true rfl) (Nat.le_of_ble_eq_true rfl)
              · rw [if_pos c] at h
                refine r_aload_n G 0 rfl rfl dX3_readBehindFactor_104 ?_
                obtain ⟨o3, e3, h⟩ := ob h
                refine r_callVv G [] (qX3_endStatement hE _ e3) ⟨72, 3, _, _, rfl, (cw_READER ad κ _), rfl⟩ gX3_readBehindFactor_X3_endStatement rfl hdX3_endStatement ⟨Nat.le_of_ble_eq_true rfl, Nat.le_of_ble_eq_true rfl⟩ (Nat.le_of_ble_eq_true rfl) rfl ⟨Nat.le_of_ble_eq_true rfl, Nat.le_of_ble_eq_true rfl⟩ rfl rfl dX3_readBehindFactor_105 (fun s3 hp => ?_)
                have hp := hp.symm
                subst hp
                try dsimp only at h
                refine r_goto G (tgt := 115) dX3_readBehindFactor_108 (by decide) ?_
                exact hret _ _ _ _ _ dX3_readBehindFactor_115 (Option.some.inj h).symm (Nat.le_of_ble_eq_true rfl) (Nat.le_of_ble_eq_true rfl)
          · rw [if_pos c] at h
            refine r_aload_n G 0 rfl rfl dX3_readBehindFactor_77 ?_
            refine r_get G (C := RX3) (T := TX3) (N := 15) kX3_readBehindFactor_X3 72 (cw_READER ad κ _) rfl 9 (by decide) mX3_readBehindFactor_f84 rfl rfl dX3_readBehindFactor_78 ?_
            refine r_if_le G (tgt := 91) dX3_readBehindFactor_81 (by decide) (fun c => ?_) (fun c => ?_)
            · rw [if_pos c] at h
              refine r_iload_n G 1 rfl rfl dX3_readBehindFactor_91 ?_
              refine r_bipush G (v := 59) (by decide) dX3_readBehindFactor_92 ?_
              refine r_icmp_ne G (tgt := 111) dX3_readBehindFactor_94 (by decide) (fun c => ?_) (fun c => ?_)
              · rw [if_neg c] at h
                refine r_aload_n G 0 rfl rfl dX3_readBehindFactor_111 ?_
                obtain ⟨o4, e4, h⟩ := ob h
                refine r_callVv G [] (qX3_refuseByte hE _ e4) ⟨72, 3, _, _, rfl, (cw_READER ad κ _), rfl⟩ gX3_readBehindFactor_X3_refuseByte rfl hdX3_refuseByte ⟨Nat.le_of_ble_eq_true rfl, Nat.le_of_ble_eq_true rfl⟩ (Nat.le_of_ble_eq_true rfl) rfl ⟨Nat.le_of_ble_eq_true rfl, Nat.le_of_ble_eq_true rfl⟩ rfl rfl dX3_readBehindFactor_112 (fun s4 hp => ?_)
                have hp := hp.symm
                subst hp
                try dsimp only at h
                exact hret _ _ _ _ _ dX3_readBehindFactor_115 (Option.some.inj h).symm (Nat.le_of_ble_eq_true rfl) (Nat.le_of_ble_eq_true rfl)
              · rw [if_pos c] at h
                refine r_aload_n G 0 rfl rfl dX3_readBehindFactor_97 ?_
                refine r_get G (C := RX3) (T := TX3) (N := 15) kX3_readBehindFactor_X3 72 (cw_READER ad κ _) rfl 9 (by decide) mX3_readBehindFactor_f84 rfl rfl dX3_readBehindFactor_98 ?_
                refine r_if_ne G (tgt := 111) dX3_readBehindFactor_101 (by decide) (fun c => ?_) (fun c => ?_)
                · rw [if_neg c] at h
                  refine r_aload_n G 0 rfl rfl dX3_readBehindFactor_111 ?_
                  obtain ⟨o5, e5, h⟩ := ob h
                  refine r_callVv G [] (qX3_refuseByte hE _ e5) ⟨72, 3, _, _, rfl, (cw_READER ad κ _), rfl⟩ gX3_readBehindFactor_X3_refuseByte rfl hdX3_refuseByte ⟨Nat.le_of_ble_eq_true rfl, Nat.le_of_ble_eq_true rfl⟩ (Nat.le_of_ble_eq_true rfl) rfl ⟨Nat.le_of_ble_eq_true rfl, Nat.le_of_ble_eq_true rfl⟩ rfl rfl dX3_readBehindFactor_112 (fun s5 hp => ?_)
                  have hp := hp.symm
                  subst hp
                  try dsimp only at h
                  exact hret _ _ _ _ _ dX3_readBehindFactor_115 (Option.some.inj h).symm (Nat.le_of_ble_eq_true rfl) (Nat.le_of_ble_eq_true rfl)
                · rw [if_pos c] at h
                  refine r_aload_n G 0 rfl rfl dX3_readBehindFactor_104 ?_
                  obtain ⟨o6, e6, h⟩ := ob h
                  refine r_callVv G [] (qX3_endStatement hE _ e6) ⟨72, 3, _, _, rfl, (cw_READER ad κ _), rfl⟩ gX3_readBehindFactor_X3_endStatement rfl hdX3_endStatement ⟨Nat.le_of_ble_eq_true rfl, Nat.le_of_ble_eq_true rfl⟩ (Nat.le_of_ble_eq_true rfl) rfl ⟨Nat.le_of_ble_eq_true rfl, Nat.le_of_ble_eq_true rfl⟩ rfl rfl dX3_readBehindFactor_105 (fun s6 hp => ?_)
                  have hp := hp.symm
                  subst hp
                  try dsimp only at h
                  refine r_goto G (tgt := 115) dX3_readBehindFactor_108 (by decide) ?_
                  exact hret _ _ _ _ _ dX3_readBehindFactor_115 (Option.some.inj h).symm (Nat.le_of_ble_eq_true rfl) (Nat.le_of_ble_eq_true rfl)
            · rw [if_neg c] at h
              refine r_aload_n G 0 rfl rfl dX3_readBehindFactor_84 ?_
              obtain ⟨o7, e7, h⟩ := ob h
              refine r_callVv G [] (qX3_closeBracket hE _ e7) ⟨72, 3, _, _, rfl, (cw_READER ad κ _), rfl⟩ gX3_readBehindFactor_X3_closeBracket rfl hdX3_closeBracket ⟨Nat.le_of_ble_eq_true rfl, Nat.le_of_ble_eq_true rfl⟩ (Nat.le_of_ble_eq_true rfl) rfl ⟨Nat.le_of_ble_eq_true rfl, Nat.le_of_ble_eq_true rfl⟩ rfl rfl dX3_readBehindFactor_85 (fun s7 hp => ?_)
              have hp := hp.symm
              subst hp
              try dsimp only at h
              refine r_goto G (tgt := 115) dX3_readBehindFactor_88 (by decide) ?_
              exact hret _ _ _ _ _ dX3_readBehindFactor_115 (Option.some.inj h).symm (Nat.le_of_ble_eq_true rfl) (Nat.le_of_ble_eq_true rfl)
        · rw [if_pos c] at h
          refine r_aload_n G 0 rfl rfl dX3_readBehindFactor_58 ?_
          refine r_iconst G (v := 3) (by decide) dX3_readBehindFactor_59 ?_
          obtain ⟨o8, e8, h⟩ := ob h
          refine r_callVv G [.int 3] (qX3_endPart hE (3 : Int32) _ e8) ⟨72, 3, _, _, rfl, (cw_READER ad κ _), rfl⟩ gX3_readBehindFactor_X3_endPart rfl hdX3_endPart ⟨Nat.le_of_ble_eq_true rfl, Nat.le_of_ble_eq_true rfl⟩ (Nat.le_of_ble_eq_true rfl) rfl ⟨Nat.le_of_ble_eq_true rfl, Nat.le_of_ble_eq_true rfl⟩ rfl rfl dX3_readBehindFactor_60 (fun s8 hp => ?_)
          have hp := hp.symm
          subst hp
          try dsimp only at h
          refine r_aload_n G 0 rfl rfl dX3_readBehindFactor_63 ?_
          refine r_iconst G (v := 2) (by decide) dX3_readBehindFactor_64 ?_
          obtain ⟨o9, e9, h⟩ := ob h
          refine r_callVv G [.int 2] (qX3_pass hE (2 : Int32) _ e9) ⟨72, 3, _, _, rfl, (cw_READER ad κ _), rfl⟩ gX3_readBehindFactor_X3_pass rfl hdX3_pass ⟨Nat.le_of_ble_eq_true rfl, Nat.le_of_ble_eq_true rfl⟩ (Nat.le_of_ble_eq_true rfl) rfl ⟨Nat.le_of_ble_eq_true rfl, Nat.le_of_ble_eq_true rfl⟩ rfl rfl dX3_readBehindFactor_65 (fun s9 hp => ?_)
          have hp := hp.symm
          subst hp
          try dsimp only at h
          refine r_goto G (tgt := 115) dX3_readBehindFactor_68 (by decide) ?_
          exact hret _ _ _ _ _ dX3_readBehindFactor_115 (Option.some.inj h).symm (Nat.le_of_ble_eq_true rfl) (Nat.le_of_ble_eq_true rfl)
      · rw [if_pos c] at h
        refine r_aload_n G 0 rfl rfl dX3_readBehindFactor_39 ?_
        refine r_iconst G (v := 2) (by decide) dX3_readBehindFactor_40 ?_
        obtain ⟨o10, e10, h⟩ := ob h
        refine r_callVv G [.int 2] (qX3_endPart hE (2 : Int32) _ e10) ⟨72, 3, _, _, rfl, (cw_READER ad κ _), rfl⟩ gX3_readBehindFactor_X3_endPart rfl hdX3_endPart ⟨Nat.le_of_ble_eq_true rfl, Nat.le_of_ble_eq_true rfl⟩ (Nat.le_of_ble_eq_true rfl) rfl ⟨Nat.le_of_ble_eq_true rfl, Nat.le_of_ble_eq_true rfl⟩ rfl rfl dX3_readBehindFactor_41 (fun s10 hp => ?_)
        have hp := hp.symm
        subst hp
        try dsimp only at h
        refine r_aload_n G 0 rfl rfl dX3_readBehindFactor_44 ?_
        refine r_iconst G (v := 2) (by decide) dX3_readBehindFactor_45 ?_
        obtain ⟨o11, e11, h⟩ := ob h
        refine r_callVv G [.int 2] (qX3_pass hE (2 : Int32) _ e11) ⟨72, 3, _, _, rfl, (cw_READER ad κ _), rfl⟩ gX3_readBehindFactor_X3_pass rfl hdX3_pass ⟨Nat.le_of_ble_eq_true rfl, Nat.le_of_ble_eq_true rfl⟩ (Nat.le_of_ble_eq_true rfl) rfl ⟨Nat.le_of_ble_eq_true rfl, Nat.le_of_ble_eq_true rfl⟩ rfl rfl dX3_readBehindFactor_46 (fun s11 hp => ?_)
        have hp := hp.symm
        subst hp
        try dsimp only at h
        refine r_goto G (tgt := 115) dX3_readBehindFactor_49 (by decide) ?_
        exact hret _ _ _ _ _ dX3_readBehindFactor_115 (Option.some.inj h).symm (Nat.le_of_ble_eq_true rfl) (Nat.le_of_ble_eq_true rfl)
    · rw [if_pos c] at h
      refine r_aload_n G 0 rfl rfl dX3_readBehindFactor_20 ?_
      refine r_iconst G (v := 0) (by decide) dX3_readBehindFactor_21 ?_
      obtain ⟨o12, e12, h⟩ := ob h
      refine r_callVv G [.int 0] (qX3_endPart hE (0 : Int32) _ e12) ⟨72, 3, _, _, rfl, (cw_READER ad κ _), rfl⟩ gX3_readBehindFactor_X3_endPart rfl hdX3_endPart ⟨Nat.le_of_ble_eq_true rfl, Nat.le_of_ble_eq_true rfl⟩ (Nat.le_of_ble_eq_true rfl) rfl ⟨Nat.le_of_ble_eq_true rfl, Nat.le_of_ble_eq_true rfl⟩ rfl rfl dX3_readBehindFactor_22 (fun s12 hp => ?_)
      have hp := hp.symm
      subst hp
      try dsimp only at h
      refine r_aload_n G 0 rfl rfl dX3_readBehindFactor_25 ?_
      refine r_iconst G (v := 2) (by decide) dX3_readBehindFactor_26 ?_
      obtain ⟨o13, e13, h⟩ := ob h
      refine r_callVv G [.int 2] (qX3_pass hE (2 : Int32) _ e13) ⟨72, 3, _, _, rfl, (cw_READER ad κ _), rfl⟩ gX3_readBehindFactor_X3_pass rfl hdX3_pass ⟨Nat.le_of_ble_eq_true rfl, Nat.le_of_ble_eq_true rfl⟩ (Nat.le_of_ble_eq_true rfl) rfl ⟨Nat.le_of_ble_eq_true rfl, Nat.le_of_ble_eq_true rfl⟩ rfl rfl dX3_readBehindFactor_27 (fun s13 hp => ?_)
      have hp := hp.symm
      subst hp
      try dsimp only at h
      refine r_goto G (tgt := 115) dX3_readBehindFactor_30 (by decide) ?_
      exact hret _ _ _ _ _ dX3_readBehindFactor_115 (Option.some.inj h).symm (Nat.le_of_ble_eq_true rfl) (Nat.le_of_ble_eq_true rfl)
  · rw [if_pos c] at h
    refine r_aload_n G 0 rfl rfl dX3_readBehindFactor_6 ?_
    refine r_iconst G (v := 2) (by decide) dX3_readBehindFactor_7 ?_
    obtain ⟨o14, e14, h⟩ := ob h
    refine r_callVv G [.int 2] (qX3_pass hE (2 : Int32) _ e14) ⟨72, 3, _, _, rfl, (cw_READER ad κ _), rfl⟩ gX3_readBehindFactor_X3_pass rfl hdX3_pass ⟨Nat.le_of_ble_eq_true rfl, Nat.le_of_ble_eq_true rfl⟩ (Nat.le_of_ble_eq_true rfl) rfl ⟨Nat.le_of_ble_eq_true rfl, Nat.le_of_ble_eq_true rfl⟩ rfl rfl dX3_readBehindFactor_8 (fun s14 hp => ?_)
    have hp := hp.symm
    subst hp
    try dsimp only at h
    refine r_goto G (tgt := 115) dX3_readBehindFactor_11 (by decide) ?_
    exact hret _ _ _ _ _ dX3_readBehindFactor_115 (Option.some.inj h).symm (Nat.le_of_ble_eq_true rfl) (Nat.le_of_ble_eq_true rfl)
abbrev rmX3_isDigit : Room := { frames := 0, cells := 0, slots := 0, locals := 0 }
set_option maxHeartbeats 4000000 in
set_option maxRecDepth 100000 in
theorem qX3_isDigit {E : evT} {l : Launch} {D : va_G} {ad : Nat → Nat} {κ : Nat → ClassId} (hE : EvOk E) (p0 : Int32) (s : cS) : Ci l yX3_isDigit wsX3_isDigit rmX3_isDigit (cW ad κ) E D (tyA κ) .boolean [.int p0] s (fun r s2 => r = fX3_isDigit p0 s ∧ s2 = s) := by
  obtain ⟨o, h⟩ : ∃ o, fX3_isDigit p0 s = o := ⟨_, rfl⟩
  rw [h]
  rw [fX3_isDigit] at h
  refine s_i (cc := cX3_isDigit) (nL := 1) (own := RX3) hE (cW_WA ad κ) (plainFor_of_name (by decide)) rfl rfl (Nat.le_of_ble_eq_true rfl) (fun Γ G hret => ?_)
  refine r_iload_n G 0 rfl rfl dX3_isDigit_0 ?_
  refine r_bipush G (v := 48) (by decide) dX3_isDigit_1 ?_
  refine r_icmp_lt G (tgt := 16) dX3_isDigit_3 (by decide) (fun c => ?_) (fun c => ?_)
  · rw [if_pos c] at h
    refine r_iconst G (v := 0) (by decide) dX3_isDigit_16 ?_
    exact hret _ _ _ _ _ _ dX3_isDigit_17 ⟨h, rfl⟩ rfl (Nat.le_of_ble_eq_true rfl) (Nat.le_of_ble_eq_true rfl)
  · rw [if_neg c] at h
    refine r_iload_n G 0 rfl rfl dX3_isDigit_6 ?_
    refine r_bipush G (v := 57) (by decide) dX3_isDigit_7 ?_
    refine r_icmp_gt G (tgt := 16) dX3_isDigit_9 (by decide) (fun c => ?_) (fun c => ?_)
    · rw [if_pos c] at h
      refine r_iconst G (v := 0) (by decide) dX3_isDigit_16 ?_
      exact hret _ _ _ _ _ _ dX3_isDigit_17 ⟨h, rfl⟩ rfl (Nat.le_of_ble_eq_true rfl) (Nat.le_of_ble_eq_true rfl)
    · rw [if_neg c] at h
      refine r_iconst G (v := 1) (by decide) dX3_isDigit_12 ?_
      refine r_goto G (tgt := 17) dX3_isDigit_13 (by decide) ?_
      exact hret _ _ _ _ _ _ dX3_isDigit_17 ⟨h, rfl⟩ rfl (Nat.le_of_ble_eq_true rfl) (Nat.le_of_ble_eq_true rfl)
abbrev rmX3_readNumber : Room := { frames := 1, cells := 0, slots := 0, locals := 22 }
set_option maxRecDepth 20000 in
theorem kX3_readNumber_X3 : ∀ w ∈ u_ws RX3 TX3 15, w ∈ wsX3_readNumber := by decide +kernel
set_option maxRecDepth 20000 in
theorem mX3_readNumber_f61 : Cond.fieldLink RX3 61 "SetCouncil$Reader" "at" "I" ∈ wsX3_readNumber := by decide +kernel
set_option maxRecDepth 20000 in
theorem mX3_readNumber_f9 : Cond.fieldLink RX3 9 "SetCouncil$Reader" "text" "LSetCouncil$Text;" ∈ wsX3_readNumber := by decide +kernel
theorem hdX3_isDigit : yX3_isDigit.cls ≠ "java/lang/invoke/MethodHandle" ∧ yX3_isDigit.cls ≠ "java/lang/invoke/VarHandle" ∧ (parseMethodDescriptor yX3_isDigit.desc).map (fun d => d.parameters.length) = some 1 := by decide +kernel
set_option maxHeartbeats 4000000 in
set_option maxRecDepth 100000 in
theorem wX3_readNumber_L52 {E : evT} {l : Launch} {D : va_G} {ad : Nat → Nat} {κ : Nat → ClassId} (hE : EvOk E) {Γ : cxT} (G : Cx (cW ad κ) D (tyA κ) E l Γ cX3_readNumber RX3 wsX3_readNumber 6 rmX3_readNumber) (x1 : Int32) (x2 : Int32) (x3 : Int32) {o : (Int32 × cS)} (hret : ∀ (st2 : cS) (v : Int32) (cells slots pc : Nat) (lv : List (Nat × Value)), decode cX3_readNumber pc = .ok (.ireturn, 1) → o = (v, st2) → narrow .int (.int v) = .int v → cells ≤ rmX3_readNumber.cells → slots ≤ rmX3_readNumber.slots → V (cW ad κ) D Γ st2 cells slots pc lv [.int v]) {k0 : Int32 → cS → Option (Int32 × cS)} (hk0 : ∀ (y4 : Int32) (s : cS), k0 y4 s = some o → V (cW ad κ) D Γ s 0 0 125 [(0, .ref (ad 72)), (1, .int x1), (2, .int x2), (3, .int x3), (4, .int y4)] []) : ∀ (fuel : Nat) (x4 : Int32) (s : cS), fX3_readNumber_L52 x1 x2 x3 k0 fuel x4 s = some o → V (cW ad κ) D Γ s 0 0 52 [(0, .ref (ad 72)), (1, .int x1), (2, .int x2), (3, .int x3), (4, .int x4)] [] := by
  intro fuel
  induction fuel with
  | zero =>
    intro _ _ h
    have h : none = some o := h
    cases h
  | succ fuel ih =>
    intro x4 s h
    rw [fX3_readNumber_L52] at h
    refine r_aload_n G 0 rfl rfl dX3_readNumber_52 ?_
    refine r_get G (C := RX3) (T := TX3) (N := 15) kX3_readNumber_X3 72 (cw_READER ad κ _) rfl 7 (by decide) mX3_readNumber_f61 rfl rfl dX3_readNumber_53 ?_
    refine r_aload_n G 0 rfl rfl dX3_readNumber_56 ?_
    refine r_get G (C := RX3) (T := TX3) (N := 15) kX3_readNumber_X3 72 (cw_READER ad κ _) rfl 0 (by decide) mX3_readNumber_f9 rfl rfl dX3_readNumber_57 ?_
    refine r_callVi G [] (qX4_length hE _) ⟨70, 4, _, _, rfl, (cw_TEXT ad κ _), rfl⟩ gX3_readNumber_X4_length rfl hdX4_length ⟨Nat.le_of_ble_eq_true rfl, Nat.le_of_ble_eq_true rfl⟩ (Nat.le_of_ble_eq_true rfl) rfl ⟨Nat.le_of_ble_eq_true rfl, Nat.le_of_ble_eq_true rfl⟩ rfl rfl dX3_readNumber_60 (fun r3 s3 hp hn3 => ?_)
    obtain ⟨rfl, hs⟩ := hp
    have hs := hs.symm
    subst hs
    refine r_icmp_ge G (tgt := 125) dX3_readNumber_63 (by decide) (fun c => ?_) (fun c => ?_)
    · rw [if_pos c] at h
      exact hk0 _ _ h
    · rw [if_neg c] at h
      refine r_aload_n G 0 rfl rfl dX3_readNumber_66 ?_
      refine r_get G (C := RX3) (T := TX3) (N := 15) kX3_readNumber_X3 72 (cw_READER ad κ _) rfl 0 (by decide) mX3_readNumber_f9 rfl rfl dX3_readNumber_67 ?_
      refine r_aload_n G 0 rfl rfl dX3_readNumber_70 ?_
      refine r_get G (C := RX3) (T := TX3) (N := 15) kX3_readNumber_X3 72 (cw_READER ad κ _) rfl 7 (by decide) mX3_readNumber_f61 rfl rfl dX3_readNumber_71 ?_
      obtain ⟨o4, e4, h⟩ := ob h
      refine r_callVi G [.int (sI s 3)] (qX4_byteAt hE (sI s 3) _ e4) ⟨70, 4, _, _, rfl, (cw_TEXT ad κ _), rfl⟩ gX3_readNumber_X4_byteAt rfl hdX4_byteAt ⟨Nat.le_of_ble_eq_true rfl, Nat.le_of_ble_eq_true rfl⟩ (Nat.le_of_ble_eq_true rfl) rfl ⟨Nat.le_of_ble_eq_true rfl, Nat.le_of_ble_eq_true rfl⟩ rfl rfl dX3_readNumber_74 (fun r4 s4 hp hn4 => ?_)
      subst hp
      try dsimp only at h
      refine r_callSi G [.int r4] (qX3_isDigit hE r4 _) gX3_readNumber_X3_isDigit rfl hdX3_isDigit ⟨Nat.le_of_ble_eq_true rfl, Nat.le_of_ble_eq_true rfl⟩ (Nat.le_of_ble_eq_true rfl) rfl ⟨Nat.le_of_ble_eq_true rfl, Nat.le_of_ble_eq_true rfl⟩ rfl rfl dX3_readNumber_77 (fun r5 s5 hp hn5 => ?_)
      obtain ⟨rfl, hs⟩ := hp
      have hs := hs.symm
      subst hs
      refine r_if_eq G (tgt := 125) dX3_readNumber_80 (by decide) (fun c => ?_) (fun c => ?_)
      · rw [if_pos c] at h
        exact hk0 _ _ h
      · rw [if_neg c] at h
        refine r_iload G 4 rfl dX3_readNumber_83 ?_
        refine r_bipush G (v := 50) (by decide) dX3_readNumber_85 ?_
        refine r_icmp_gt G (tgt := 112) dX3_readNumber_87 (by decide) (fun c => ?_) (fun c => ?_)
        · rw [if_pos c] at h
          refine r_aload_n G 0 rfl rfl dX3_readNumber_112 ?_
          refine r_dup G rfl dX3_readNumber_113 ?_
          refine r_get G (C := RX3) (T := TX3) (N := 15) kX3_readNumber_X3 72 (cw_READER ad κ _) rfl 7 (by decide) mX3_readNumber_f61 rfl rfl dX3_readNumber_114 ?_
          refine r_iconst G (v := 1) (by decide) dX3_readNumber_117 ?_
          refine r_iadd G dX3_readNumber_118 ?_
          refine r_put G (C := RX3) (T := TX3) (N := 15) kX3_readNumber_X3 tyX3 tyX3_ok nmX3 72 (cw_READER ad κ _) rfl 7 (by decide) mX3_readNumber_f61 rfl rfl (tyX3_ok 7 (by decide)) rfl rfl (Nat.le_of_ble_eq_true rfl) (cu_Rat ad κ _ _) dX3_readNumber_119 ?_
          refine r_goto G (tgt := 52) dX3_readNumber_122 (by decide) ?_
          exact ih _ _ h
        · rw [if_neg c] at h
          refine r_iload G 4 rfl dX3_readNumber_90 ?_
          refine r_bipush G (v := 10) (by decide) dX3_readNumber_92 ?_
          refine r_imul G dX3_readNumber_94 ?_
          refine r_aload_n G 0 rfl rfl dX3_readNumber_95 ?_
          refine r_get G (C := RX3) (T := TX3) (N := 15) kX3_readNumber_X3 72 (cw_READER ad κ _) rfl 0 (by decide) mX3_readNumber_f9 rfl rfl dX3_readNumber_96 ?_
          refine r_aload_n G 0 rfl rfl dX3_readNumber_99 ?_
          refine r_get G (C := RX3) (T := TX3) (N := 15) kX3_readNumber_X3 72 (cw_READER ad κ _) rfl 7 (by decide) mX3_readNumber_f61 rfl rfl dX3_readNumber_100 ?_
          obtain ⟨o6, e6, h⟩ := ob h
          refine r_callVi G [.int (sI s4 3)] (qX4_byteAt hE (sI s4 3) _ e6) ⟨70, 4, _, _, rfl, (cw_TEXT ad κ _), rfl⟩ gX3_readNumber_X4_byteAt rfl hdX4_byteAt ⟨Nat.le_of_ble_eq_true rfl, Nat.le_of_ble_eq_true rfl⟩ (Nat.le_of_ble_eq_true rfl) rfl ⟨Nat.le_of_ble_eq_true rfl, Nat.le_of_ble_eq_true rfl⟩ rfl rfl dX3_readNumber_103 (fun r6 s6 hp hn6 => ?_)
          subst hp
          try dsimp only at h
          refine r_bipush G (v := 48) (by decide) dX3_readNumber_106 ?_
          refine r_isub G dX3_readNumber_108 ?_
          refine r_iadd G dX3_readNumber_109 ?_
          refine r_istore G [1, 2, 3, 4, 0] rfl (by decide) dX3_readNumber_110 ?_
          refine r_aload_n G 0 rfl rfl dX3_readNumber_112 ?_
          refine r_dup G rfl dX3_readNumber_113 ?_
          refine r_get G (C := RX3) (T := TX3) (N := 15) kX3_readNumber_X3 72 (cw_READER ad κ _) rfl 7 (by decide) mX3_readNumber_f61 rfl rfl dX3_readNumber_114 ?_
          refine r_iconst G (v := 1) (by decide) dX3_readNumber_117 ?_
          refine r_iadd G dX3_readNumber_118 ?_
          refine r_put G (C := RX3) (T := TX3) (N := 15) kX3_readNumber_X3 tyX3 tyX3_ok nmX3 72 (cw_READER ad κ _) rfl 7 (by decide) mX3_readNumber_f61 rfl rfl (tyX3_ok 7 (by decide)) rfl rfl (Nat.le_of_ble_eq_true rfl) (cu_Rat ad κ _ _) dX3_readNumber_119 ?_
          refine r_goto G (tgt := 52) dX3_readNumber_122 (by decide) ?_
          exact ih _ _ h
set_option maxHeartbeats 4000000 in
set_option maxRecDepth 100000 in
theorem qX3_readNumber {E : evT} {l : Launch} {D : va_G} {ad : Nat → Nat} {κ : Nat → ClassId} (hE : EvOk E) (p0 : Int32) (p1 : Int32) (s : cS) {o : (Int32 × cS)} (h : fX3_readNumber p0 p1 s = some o) : Ci l yX3_readNumber wsX3_readNumber rmX3_readNumber (cW ad κ) E D (tyA κ) .int [.ref (ad 72), .int p0, .int p1] s (fun r s2 => o = (r, s2)) := by
  rw [fX3_readNumber] at h
  refine s_i (cc := cX3_readNumber) (nL := 6) (own := RX3) hE (cW_WA ad κ) (plainFor_of_name (by decide)) rfl rfl (Nat.le_of_ble_eq_true rfl) (fun Γ G hret => ?_)
  refine r_aload_n G 0 rfl rfl dX3_readNumber_0 ?_
  refine r_get G (C := RX3) (T := TX3) (N := 15) kX3_readNumber_X3 72 (cw_READER ad κ _) rfl 7 (by decide) mX3_readNumber_f61 rfl rfl dX3_readNumber_1 ?_
  refine r_istore_n G [1, 2, 3, 0] rfl rfl (by decide) dX3_readNumber_4 ?_
  refine r_iload_n G 1 rfl rfl dX3_readNumber_5 ?_
  refine r_bipush G (v := 45) (by decide) dX3_readNumber_6 ?_
  refine r_icmp_ne G (tgt := 21) dX3_readNumber_8 (by decide) (fun c => ?_) (fun c => ?_)
  · rw [if_neg c] at h
    refine r_aload_n G 0 rfl rfl dX3_readNumber_21 ?_
    refine r_get G (C := RX3) (T := TX3) (N := 15) kX3_readNumber_X3 72 (cw_READER ad κ _) rfl 0 (by decide) mX3_readNumber_f9 rfl rfl dX3_readNumber_22 ?_
    refine r_aload_n G 0 rfl rfl dX3_readNumber_25 ?_
    refine r_get G (C := RX3) (T := TX3) (N := 15) kX3_readNumber_X3 72 (cw_READER ad κ _) rfl 7 (by decide) mX3_readNumber_f61 rfl rfl dX3_readNumber_26 ?_
    obtain ⟨o1, e1, h⟩ := ob h
    refine r_callVi G [.int (sI s 3)] (qX4_byteAt hE (sI s 3) _ e1) ⟨70, 4, _, _, rfl, (cw_TEXT ad κ _), rfl⟩ gX3_readNumber_X4_byteAt rfl hdX4_byteAt ⟨Nat.le_of_ble_eq_true rfl, Nat.le_of_ble_eq_true rfl⟩ (Nat.le_of_ble_eq_true rfl) rfl ⟨Nat.le_of_ble_eq_true rfl, Nat.le_of_ble_eq_true rfl⟩ rfl rfl dX3_readNumber_29 (fun r1 s1 hp hn1 => ?_)
    subst hp
    try dsimp only at h
    refine r_callSi G [.int r1] (qX3_isDigit hE r1 _) gX3_readNumber_X3_isDigit rfl hdX3_isDigit ⟨Nat.le_of_ble_eq_true rfl, Nat.le_of_ble_eq_true rfl⟩ (Nat.le_of_ble_eq_true rfl) rfl ⟨Nat.le_of_ble_eq_true rfl, Nat.le_of_ble_eq_true rfl⟩ rfl rfl dX3_readNumber_32 (fun r2 s2 hp hn2 => ?_)
    obtain ⟨rfl, hs⟩ := hp
    have hs := hs.symm
    subst hs
    refine r_if_ne G (tgt := 49) dX3_readNumber_35 (by decide) (fun c => ?_) (fun c => ?_)
    · rw [if_neg c] at h
      refine r_iconst G (v := 0) (by decide) dX3_readNumber_49 ?_
      refine r_istore G [1, 2, 3, 4, 0] rfl (by decide) dX3_readNumber_50 ?_
      refine wX3_readNumber_L52 hE G _ _ _ hret (fun y4_7 s7 h => ?_) 1100 _ _ h
      · try dsimp only at h
        refine r_iload_n G 1 rfl rfl dX3_readNumber_125 ?_
        refine r_bipush G (v := 45) (by decide) dX3_readNumber_126 ?_
        refine r_icmp_ne G (tgt := 137) dX3_readNumber_128 (by decide) (fun c => ?_) (fun c => ?_)
        · rw [if_neg c] at h
          refine r_iload G 4 rfl dX3_readNumber_137 ?_
          refine r_istore G [1, 3, 4, 0] rfl (by decide) dX3_readNumber_139 ?_
          refine r_iload G 3 rfl dX3_readNumber_141 ?_
          refine r_iload_n G 1 rfl rfl dX3_readNumber_143 ?_
          refine r_icmp_lt G (tgt := 154) dX3_readNumber_144 (by decide) (fun c => ?_) (fun c => ?_)
          · rw [if_pos c] at h
            refine r_aload_n G 0 rfl rfl dX3_readNumber_154 ?_
            refine r_iconst G (v := 2) (by decide) dX3_readNumber_155 ?_
            refine r_iload_n G 2 rfl rfl dX3_readNumber_156 ?_
            obtain ⟨o8, e8, h⟩ := ob h
            refine r_callVv G [.int 2, .int (sI s 3)] (qX3_fail hE (2 : Int32) (sI s 3) _ e8) ⟨72, 3, _, _, rfl, (cw_READER ad κ _), rfl⟩ gX3_readNumber_X3_fail rfl hdX3_fail ⟨Nat.le_of_ble_eq_true rfl, Nat.le_of_ble_eq_true rfl⟩ (Nat.le_of_ble_eq_true rfl) rfl ⟨Nat.le_of_ble_eq_true rfl, Nat.le_of_ble_eq_true rfl⟩ rfl rfl dX3_readNumber_157 (fun s8 hp => ?_)
            have hp := hp.symm
            subst hp
            try dsimp only at h
            refine r_iconst G (v := 0) (by decide) dX3_readNumber_160 ?_
            exact hret _ _ _ _ _ _ dX3_readNumber_161 (Option.some.inj h).symm rfl (Nat.le_of_ble_eq_true rfl) (Nat.le_of_ble_eq_true rfl)
          · rw [if_neg c] at h
            refine r_iload G 3 rfl dX3_readNumber_147 ?_
            refine r_bipush G (v := 50) (by decide) dX3_readNumber_149 ?_
            refine r_icmp_le G (tgt := 162) dX3_readNumber_151 (by decide) (fun c => ?_) (fun c => ?_)
            · rw [if_pos c] at h
              refine r_iload G 3 rfl dX3_readNumber_162 ?_
              exact hret _ _ _ _ _ _ dX3_readNumber_164 (Option.some.inj h).symm rfl (Nat.le_of_ble_eq_true rfl) (Nat.le_of_ble_eq_true rfl)
            · rw [if_neg c] at h
              refine r_aload_n G 0 rfl rfl dX3_readNumber_154 ?_
              refine r_iconst G (v := 2) (by decide) dX3_readNumber_155 ?_
              refine r_iload_n G 2 rfl rfl dX3_readNumber_156 ?_
              obtain ⟨o9, e9, h⟩ := ob h
              refine r_callVv G [.int 2, .int (sI s 3)] (qX3_fail hE (2 : Int32) (sI s 3) _ e9) ⟨72, 3, _, _, rfl, (cw_READER ad κ _), rfl⟩ gX3_readNumber_X3_fail rfl hdX3_fail ⟨Nat.le_of_ble_eq_true rfl, Nat.le_of_ble_eq_true rfl⟩ (Nat.le_of_ble_eq_true rfl) rfl ⟨Nat.le_of_ble_eq_true rfl, Nat.le_of_ble_eq_true rfl⟩ rfl rfl dX3_readNumber_157 (fun s9 hp => ?_)
              have hp := hp.symm
              subst hp
              try dsimp only at h
              refine r_iconst G (v := 0) (by decide) dX3_readNumber_160 ?_
              exact hret _ _ _ _ _ _ dX3_readNumber_161 (Option.some.inj h).symm rfl (Nat.le_of_ble_eq_true rfl) (Nat.le_of_ble_eq_true rfl)
        · rw [if_pos c] at h
          refine r_iload G 4 rfl dX3_readNumber_131 ?_
          refine r_ineg G dX3_readNumber_133 ?_
          refine r_goto G (tgt := 139) dX3_readNumber_134 (by decide) ?_
          refine r_istore G [1, 3, 4, 0] rfl (by decide) dX3_readNumber_139 ?_
          refine r_iload G 3 rfl dX3_readNumber_141 ?_
          refine r_iload_n G 1 rfl rfl dX3_readNumber_143 ?_
          refine r_icmp_lt G (tgt := 154) dX3_readNumber_144 (by decide) (fun c => ?_) (fun c => ?_)
          · rw [if_pos c] at h
            refine r_aload_n G 0 rfl rfl dX3_readNumber_154 ?_
            refine r_iconst G (v := 2) (by decide) dX3_readNumber_155 ?_
            refine r_iload_n G 2 rfl rfl dX3_readNumber_156 ?_
            obtain ⟨o10, e10, h⟩ := ob h
            refine r_callVv G [.int 2, .int (sI s 3)] (qX3_fail hE (2 : Int32) (sI s 3) _ e10) ⟨72, 3, _, _, rfl, (cw_READER ad κ _), rfl⟩ gX3_readNumber_X3_fail rfl hdX3_fail ⟨Nat.le_of_ble_eq_true rfl, Nat.le_of_ble_eq_true rfl⟩ (Nat.le_of_ble_eq_true rfl) rfl ⟨Nat.le_of_ble_eq_true rfl, Nat.le_of_ble_eq_true rfl⟩ rfl rfl dX3_readNumber_157 (fun s10 hp => ?_)
            have hp := hp.symm
            subst hp
            try dsimp only at h
            refine r_iconst G (v := 0) (by decide) dX3_readNumber_160 ?_
            exact hret _ _ _ _ _ _ dX3_readNumber_161 (Option.some.inj h).symm rfl (Nat.le_of_ble_eq_true rfl) (Nat.le_of_ble_eq_true rfl)
          · rw [if_neg c] at h
            refine r_iload G 3 rfl dX3_readNumber_147 ?_
            refine r_bipush G (v := 50) (by decide) dX3_readNumber_149 ?_
            refine r_icmp_le G (tgt := 162) dX3_readNumber_151 (by decide) (fun c => ?_) (fun c => ?_)
            · rw [if_pos c] at h
              refine r_iload G 3 rfl dX3_readNumber_162 ?_
              exact hret _ _ _ _ _ _ dX3_readNumber_164 (Option.some.inj h).symm rfl (Nat.le_of_ble_eq_true rfl) (Nat.le_of_ble_eq_true rfl)
            · rw [if_neg c] at h
              refine r_aload_n G 0 rfl rfl dX3_readNumber_154 ?_
              refine r_iconst G (v := 2) (by decide) dX3_readNumber_155 ?_
              refine r_iload_n G 2 rfl rfl dX3_readNumber_156 ?_
              obtain ⟨o11, e11, h⟩ := ob h
              refine r_callVv G [.int 2, .int (sI s 3)] (qX3_fail hE (2 : Int32) (sI s 3) _ e11) ⟨72, 3, _, _, rfl, (cw_READER ad κ _), rfl⟩ gX3_readNumber_X3_fail rfl hdX3_fail ⟨Nat.le_of_ble_eq_true rfl, Nat.le_of_ble_eq_true rfl⟩ (Nat.le_of_ble_eq_true rfl) rfl ⟨Nat.le_of_ble_eq_true rfl, Nat.le_of_ble_eq_true rfl⟩ rfl rfl dX3_readNumber_157 (fun s11 hp => ?_)
              have hp := hp.symm
              subst hp
              try dsimp only at h
              refine r_iconst G (v := 0) (by decide) dX3_readNumber_160 ?_
              exact hret _ _ _ _ _ _ dX3_readNumber_161 (Option.some.inj h).symm rfl (Nat.le_of_ble_eq_true rfl) (Nat.le_of_ble_eq_true rfl)
    · rw [if_pos c] at h
      refine r_aload_n G 0 rfl rfl dX3_readNumber_38 ?_
      refine r_iconst G (v := 1) (by decide) dX3_readNumber_39 ?_
      refine r_aload_n G 0 rfl rfl dX3_readNumber_40 ?_
      refine r_get G (C := RX3) (T := TX3) (N := 15) kX3_readNumber_X3 72 (cw_READER ad κ _) rfl 7 (by decide) mX3_readNumber_f61 rfl rfl dX3_readNumber_41 ?_
      obtain ⟨o12, e12, h⟩ := ob h
      refine r_callVv G [.int 1, .int (sI s1 3)] (qX3_fail hE (1 : Int32) (sI s1 3) _ e12) ⟨72, 3, _, _, rfl, (cw_READER ad κ _), rfl⟩ gX3_readNumber_X3_fail rfl hdX3_fail ⟨Nat.le_of_ble_eq_true rfl, Nat.le_of_ble_eq_true rfl⟩ (Nat.le_of_ble_eq_true rfl) rfl ⟨Nat.le_of_ble_eq_true rfl, Nat.le_of_ble_eq_true rfl⟩ rfl rfl dX3_readNumber_44 (fun s12 hp => ?_)
      have hp := hp.symm
      subst hp
      try dsimp only at h
      refine r_iconst G (v := 0) (by decide) dX3_readNumber_47 ?_
      exact hret _ _ _ _ _ _ dX3_readNumber_48 (Option.some.inj h).symm rfl (Nat.le_of_ble_eq_true rfl) (Nat.le_of_ble_eq_true rfl)
  · rw [if_pos c] at h
    refine r_aload_n G 0 rfl rfl dX3_readNumber_11 ?_
    refine r_dup G rfl dX3_readNumber_12 ?_
    refine r_get G (C := RX3) (T := TX3) (N := 15) kX3_readNumber_X3 72 (cw_READER ad κ _) rfl 7 (by decide) mX3_readNumber_f61 rfl rfl dX3_readNumber_13 ?_
    refine r_iconst G (v := 1) (by decide) dX3_readNumber_16 ?_
    refine r_iadd G dX3_readNumber_17 ?_
    refine r_put G (C := RX3) (T := TX3) (N := 15) kX3_readNumber_X3 tyX3 tyX3_ok nmX3 72 (cw_READER ad κ _) rfl 7 (by decide) mX3_readNumber_f61 rfl rfl (tyX3_ok 7 (by decide)) rfl rfl (Nat.le_of_ble_eq_true rfl) (cu_Rat ad κ _ _) dX3_readNumber_18 ?_
    refine r_aload_n G 0 rfl rfl dX3_readNumber_21 ?_
    refine r_get G (C := RX3) (T := TX3) (N := 15) kX3_readNumber_X3 72 (cw_READER ad κ _) rfl 0 (by decide) mX3_readNumber_f9 rfl rfl dX3_readNumber_22 ?_
    refine r_aload_n G 0 rfl rfl dX3_readNumber_25 ?_
    refine r_get G (C := RX3) (T := TX3) (N := 15) kX3_readNumber_X3 72 (cw_READER ad κ _) rfl 7 (by decide) mX3_readNumber_f61 rfl rfl dX3_readNumber_26 ?_
    obtain ⟨o13, e13, h⟩ := ob h
    refine r_callVi G [.int (sI (uI s 3 ((sI s 3) + 1)) 3)] (qX4_byteAt hE (sI (uI s 3 ((sI s 3) + 1)) 3) _ e13) ⟨70, 4, _, _, rfl, (cw_TEXT ad κ _), rfl⟩ gX3_readNumber_X4_byteAt rfl hdX4_byteAt ⟨Nat.le_of_ble_eq_true rfl, Nat.le_of_ble_eq_true rfl⟩ (Nat.le_of_ble_eq_true rfl) rfl ⟨Nat.le_of_ble_eq_true rfl, Nat.le_of_ble_eq_true rfl⟩ rfl rfl dX3_readNumber_29 (fun r13 s13 hp hn13 => ?_)
    subst hp
    try dsimp only at h
    refine r_callSi G [.int r13] (qX3_isDigit hE r13 _) gX3_readNumber_X3_isDigit rfl hdX3_isDigit ⟨Nat.le_of_ble_eq_true rfl, Nat.le_of_ble_eq_true rfl⟩ (Nat.le_of_ble_eq_true rfl) rfl ⟨Nat.le_of_ble_eq_true rfl, Nat.le_of_ble_eq_true rfl⟩ rfl rfl dX3_readNumber_32 (fun r14 s14 hp hn14 => ?_)
    obtain ⟨rfl, hs⟩ := hp
    have hs := hs.symm
    subst hs
    refine r_if_ne G (tgt := 49) dX3_readNumber_35 (by decide) (fun c => ?_) (fun c => ?_)
    · rw [if_neg c] at h
      refine r_iconst G (v := 0) (by decide) dX3_readNumber_49 ?_
      refine r_istore G [1, 2, 3, 4, 0] rfl (by decide) dX3_readNumber_50 ?_
      refine wX3_readNumber_L52 hE G _ _ _ hret (fun y4_15 s15 h => ?_) 1100 _ _ h
      · try dsimp only at h
        refine r_iload_n G 1 rfl rfl dX3_readNumber_125 ?_
        refine r_bipush G (v := 45) (by decide) dX3_readNumber_126 ?_
        refine r_icmp_ne G (tgt := 137) dX3_readNumber_128 (by decide) (fun c => ?_) (fun c => ?_)
        · rw [if_neg c] at h
          refine r_iload G 4 rfl dX3_readNumber_137 ?_
          refine r_istore G [1, 3, 4, 0] rfl (by decide) dX3_readNumber_139 ?_
          refine r_iload G 3 rfl dX3_readNumber_141 ?_
          refine r_iload_n G 1 rfl rfl dX3_readNumber_143 ?_
          refine r_icmp_lt G (tgt := 154) dX3_readNumber_144 (by decide) (fun c => ?_) (fun c => ?_)
          · rw [if_pos c] at h
            refine r_aload_n G 0 rfl rfl dX3_readNumber_154 ?_
            refine r_iconst G (v := 2) (by decide) dX3_readNumber_155 ?_
            refine r_iload_n G 2 rfl rfl dX3_readNumber_156 ?_
            obtain ⟨o16, e16, h⟩ := ob h
            refine r_callVv G [.int 2, .int (sI s 3)] (qX3_fail hE (2 : Int32) (sI s 3) _ e16) ⟨72, 3, _, _, rfl, (cw_READER ad κ _), rfl⟩ gX3_readNumber_X3_fail rfl hdX3_fail ⟨Nat.le_of_ble_eq_true rfl, Nat.le_of_ble_eq_true rfl⟩ (Nat.le_of_ble_eq_true rfl) rfl ⟨Nat.le_of_ble_eq_true rfl, Nat.le_of_ble_eq_true rfl⟩ rfl rfl dX3_readNumber_157 (fun s16 hp => ?_)
            have hp := hp.symm
            subst hp
            try dsimp only at h
            refine r_iconst G (v := 0) (by decide) dX3_readNumber_160 ?_
            exact hret _ _ _ _ _ _ dX3_readNumber_161 (Option.some.inj h).symm rfl (Nat.le_of_ble_eq_true rfl) (Nat.le_of_ble_eq_true rfl)
          · rw [if_neg c] at h
            refine r_iload G 3 rfl dX3_readNumber_147 ?_
            refine r_bipush G (v := 50) (by decide) dX3_readNumber_149 ?_
            refine r_icmp_le G (tgt := 162) dX3_readNumber_151 (by decide) (fun c => ?_) (fun c => ?_)
            · rw [if_pos c] at h
              refine r_iload G 3 rfl dX3_readNumber_162 ?_
              exact hret _ _ _ _ _ _ dX3_readNumber_164 (Option.some.inj h).symm rfl (Nat.le_of_ble_eq_true rfl) (Nat.le_of_ble_eq_true rfl)
            · rw [if_neg c] at h
              refine r_aload_n G 0 rfl rfl dX3_readNumber_154 ?_
              refine r_iconst G (v := 2) (by decide) dX3_readNumber_155 ?_
              refine r_iload_n G 2 rfl rfl dX3_readNumber_156 ?_
              obtain ⟨o17, e17, h⟩ := ob h
              refine r_callVv G [.int 2, .int (sI s 3)] (qX3_fail hE (2 : Int32) (sI s 3) _ e17) ⟨72, 3, _, _, rfl, (cw_READER ad κ _), rfl⟩ gX3_readNumber_X3_fail rfl hdX3_fail ⟨Nat.le_of_ble_eq_true rfl, Nat.le_of_ble_eq_true rfl⟩ (Nat.le_of_ble_eq_true rfl) rfl ⟨Nat.le_of_ble_eq_true rfl, Nat.le_of_ble_eq_true rfl⟩ rfl rfl dX3_readNumber_157 (fun s17 hp => ?_)
              have hp := hp.symm
              subst hp
              try dsimp only at h
              refine r_iconst G (v := 0) (by decide) dX3_readNumber_160 ?_
              exact hret _ _ _ _ _ _ dX3_readNumber_161 (Option.some.inj h).symm rfl (Nat.le_of_ble_eq_true rfl) (Nat.le_of_ble_eq_true rfl)
        · rw [if_pos c] at h
          refine r_iload G 4 rfl dX3_readNumber_131 ?_
          refine r_ineg G dX3_readNumber_133 ?_
          refine r_goto G (tgt := 139) dX3_readNumber_134 (by decide) ?_
          refine r_istore G [1, 3, 4, 0] rfl (by decide) dX3_readNumber_139 ?_
          refine r_iload G 3 rfl dX3_readNumber_141 ?_
          refine r_iload_n G 1 rfl rfl dX3_readNumber_143 ?_
          refine r_icmp_lt G (tgt := 154) dX3_readNumber_144 (by decide) (fun c => ?_) (fun c => ?_)
          · rw [if_pos c] at h
            refine r_aload_n G 0 rfl rfl dX3_readNumber_154 ?_
            refine r_iconst G (v := 2) (by decide) dX3_readNumber_155 ?_
            refine r_iload_n G 2 rfl rfl dX3_readNumber_156 ?_
            obtain ⟨o18, e18, h⟩ := ob h
            refine r_callVv G [.int 2, .int (sI s 3)] (qX3_fail hE (2 : Int32) (sI s 3) _ e18) ⟨72, 3, _, _, rfl, (cw_READER ad κ _), rfl⟩ gX3_readNumber_X3_fail rfl hdX3_fail ⟨Nat.le_of_ble_eq_true rfl, Nat.le_of_ble_eq_true rfl⟩ (Nat.le_of_ble_eq_true rfl) rfl ⟨Nat.le_of_ble_eq_true rfl, Nat.le_of_ble_eq_true rfl⟩ rfl rfl dX3_readNumber_157 (fun s18 hp => ?_)
            have hp := hp.symm
            subst hp
            try dsimp only at h
            refine r_iconst G (v := 0) (by decide) dX3_readNumber_160 ?_
            exact hret _ _ _ _ _ _ dX3_readNumber_161 (Option.some.inj h).symm rfl (Nat.le_of_ble_eq_true rfl) (Nat.le_of_ble_eq_true rfl)
          · rw [if_neg c] at h
            refine r_iload G 3 rfl dX3_readNumber_147 ?_
            refine r_bipush G (v := 50) (by decide) dX3_readNumber_149 ?_
            refine r_icmp_le G (tgt := 162) dX3_readNumber_151 (by decide) (fun c => ?_) (fun c => ?_)
            · rw [if_pos c] at h
              refine r_iload G 3 rfl dX3_readNumber_162 ?_
              exact hret _ _ _ _ _ _ dX3_readNumber_164 (Option.some.inj h).symm rfl (Nat.le_of_ble_eq_true rfl) (Nat.le_of_ble_eq_true rfl)
            · rw [if_neg c] at h
              refine r_aload_n G 0 rfl rfl dX3_readNumber_154 ?_
              refine r_iconst G (v := 2) (by decide) dX3_readNumber_155 ?_
              refine r_iload_n G 2 rfl rfl dX3_readNumber_156 ?_
              obtain ⟨o19, e19, h⟩ := ob h
              refine r_callVv G [.int 2, .int (sI s 3)] (qX3_fail hE (2 : Int32) (sI s 3) _ e19) ⟨72, 3, _, _, rfl, (cw_READER ad κ _), rfl⟩ gX3_readNumber_X3_fail rfl hdX3_fail ⟨Nat.le_of_ble_eq_true rfl, Nat.le_of_ble_eq_true rfl⟩ (Nat.le_of_ble_eq_true rfl) rfl ⟨Nat.le_of_ble_eq_true rfl, Nat.le_of_ble_eq_true rfl⟩ rfl rfl dX3_readNumber_157 (fun s19 hp => ?_)
              have hp := hp.symm
              subst hp
              try dsimp only at h
              refine r_iconst G (v := 0) (by decide) dX3_readNumber_160 ?_
              exact hret _ _ _ _ _ _ dX3_readNumber_161 (Option.some.inj h).symm rfl (Nat.le_of_ble_eq_true rfl) (Nat.le_of_ble_eq_true rfl)
    · rw [if_pos c] at h
      refine r_aload_n G 0 rfl rfl dX3_readNumber_38 ?_
      refine r_iconst G (v := 1) (by decide) dX3_readNumber_39 ?_
      refine r_aload_n G 0 rfl rfl dX3_readNumber_40 ?_
      refine r_get G (C := RX3) (T := TX3) (N := 15) kX3_readNumber_X3 72 (cw_READER ad κ _) rfl 7 (by decide) mX3_readNumber_f61 rfl rfl dX3_readNumber_41 ?_
      obtain ⟨o20, e20, h⟩ := ob h
      refine r_callVv G [.int 1, .int (sI s13 3)] (qX3_fail hE (1 : Int32) (sI s13 3) _ e20) ⟨72, 3, _, _, rfl, (cw_READER ad κ _), rfl⟩ gX3_readNumber_X3_fail rfl hdX3_fail ⟨Nat.le_of_ble_eq_true rfl, Nat.le_of_ble_eq_true rfl⟩ (Nat.le_of_ble_eq_true rfl) rfl ⟨Nat.le_of_ble_eq_true rfl, Nat.le_of_ble_eq_true rfl⟩ rfl rfl dX3_readNumber_44 (fun s20 hp => ?_)
      have hp := hp.symm
      subst hp
      try dsimp only at h
      refine r_iconst G (v := 0) (by decide) dX3_readNumber_47 ?_
      exact hret _ _ _ _ _ _ dX3_readNumber_48 (Option.some.inj h).symm rfl (Nat.le_of_ble_eq_true rfl) (Nat.le_of_ble_eq_true rfl)
abbrev rmX3_readItem : Room := { frames := 2, cells := 0, slots := 0, locals := 47 }
theorem hdX3_readNumber : yX3_readNumber.cls = RX3 ∧ yX3_readNumber.cls ≠ "java/lang/invoke/MethodHandle" ∧ yX3_readNumber.cls ≠ "java/lang/invoke/VarHandle" ∧ (parseMethodDescriptor yX3_readNumber.desc).map (fun d => d.parameters.length) = some 2 := by decide +kernel
set_option maxRecDepth 20000 in
theorem kX3_readItem_X3 : ∀ w ∈ u_ws RX3 TX3 15, w ∈ wsX3_readItem := by decide +kernel
set_option maxRecDepth 20000 in
theorem mX3_readItem_f163 : Cond.fieldLink RX3 163 "SetCouncil$Reader" "first" "I" ∈ wsX3_readItem := by decide +kernel
set_option maxRecDepth 20000 in
theorem mX3_readItem_f22 : Cond.fieldLink RX3 22 "SetCouncil$Reader" "braces" "LSetCouncil$MemberSet;" ∈ wsX3_readItem := by decide +kernel
theorem hdX2_put : yX2_put.cls = RX2 ∧ yX2_put.cls ≠ "java/lang/invoke/MethodHandle" ∧ yX2_put.cls ≠ "java/lang/invoke/VarHandle" ∧ (parseMethodDescriptor yX2_put.desc).map (fun d => d.parameters.length) = some 1 := by decide +kernel
set_option maxRecDepth 20000 in
theorem mX3_readItem_f78 : Cond.fieldLink RX3 78 "SetCouncil$Reader" "state" "I" ∈ wsX3_readItem := by decide +kernel
set_option maxHeartbeats 4000000 in
set_option maxRecDepth 100000 in
theorem qX3_readItem {E : evT} {l : Launch} {D : va_G} {ad : Nat → Nat} {κ : Nat → ClassId} (hE : EvOk E) (p0 : Int32) (s : cS) {o : (cS)} (h : fX3_readItem p0 s = some o) : Cv l yX3_readItem wsX3_readItem rmX3_readItem (cW ad κ) E D (tyA κ)  [.ref (ad 72), .int p0] s (fun s2 => o = s2) := by
  rw [fX3_readItem] at h
  refine s_v (cc := cX3_readItem) (nL := 2) (own := RX3) hE (cW_WA ad κ) (by decide) rfl rfl (Nat.le_of_ble_eq_true rfl) (fun Γ G hret => ?_)
  refine r_iload_n G 1 rfl rfl dX3_readItem_0 ?_
  refine r_bipush G (v := 35) (by decide) dX3_readItem_1 ?_
  refine r_icmp_ne G (tgt := 24) dX3_readItem_3 (by decide) (fun c => ?_) (fun c => ?_)
  · rw [if_neg c] at h
    refine r_iload_n G 1 rfl rfl dX3_readItem_24 ?_
    refine r_bipush G (v := 45) (by decide) dX3_readItem_25 ?_
    refine r_icmp_eq G (tgt := 37) dX3_readItem_27 (by decide) (fun c => ?_) (fun c => ?_)
    · rw [if_pos c] at h
      refine r_aload_n G 0 rfl rfl dX3_readItem_37 ?_
      refine r_aload_n G 0 rfl rfl dX3_readItem_38 ?_
      refine r_iload_n G 1 rfl rfl dX3_readItem_39 ?_
      refine r_bipush G (v := (-50)) (by decide) dX3_readItem_40 ?_
      obtain ⟨o1, e1, h⟩ := ob h
      refine r_callVi G [.int p0, .int (-50)] (qX3_readNumber hE p0 (-50 : Int32) _ e1) ⟨72, 3, _, _, rfl, (cw_READER ad κ _), rfl⟩ gX3_readItem_X3_readNumber rfl hdX3_readNumber ⟨Nat.le_of_ble_eq_true rfl, Nat.le_of_ble_eq_true rfl⟩ (Nat.le_of_ble_eq_true rfl) rfl ⟨Nat.le_of_ble_eq_true rfl, Nat.le_of_ble_eq_true rfl⟩ rfl rfl dX3_readItem_42 (fun r1 s1 hp hn1 => ?_)
      subst hp
      try dsimp only at h
      refine r_put G (C := RX3) (T := TX3) (N := 15) kX3_readItem_X3 tyX3 tyX3_ok nmX3 72 (cw_READER ad κ _) rfl 11 (by decide) mX3_readItem_f163 rfl rfl (tyX3_ok 11 (by decide)) rfl rfl (Nat.le_of_ble_eq_true rfl) (cu_Rfirst ad κ _ _) dX3_readItem_45 ?_
      refine r_aload_n G 0 rfl rfl dX3_readItem_48 ?_
      refine r_get G (C := RX3) (T := TX3) (N := 15) kX3_readItem_X3 72 (cw_READER ad κ _) rfl 2 (by decide) mX3_readItem_f22 rfl rfl dX3_readItem_49 ?_
      refine r_aload_n G 0 rfl rfl dX3_readItem_52 ?_
      refine r_get G (C := RX3) (T := TX3) (N := 15) kX3_readItem_X3 72 (cw_READER ad κ _) rfl 11 (by decide) mX3_readItem_f163 rfl rfl dX3_readItem_53 ?_
      refine r_bipush G (v := 51) (by decide) dX3_readItem_56 ?_
      refine r_iadd G dX3_readItem_58 ?_
      obtain ⟨o2, e2, h⟩ := ob h
      refine r_callVi G [.int ((sI (uI s1 7 r1) 7) + 51)] (qX2_put hE 33 (by decide) ((sI (uI s1 7 r1) 7) + 51) _ e2) ⟨33, 2, _, _, rfl, (cw_MS ad κ _ (by decide)), rfl⟩ gX3_readItem_X2_put rfl hdX2_put ⟨Nat.le_of_ble_eq_true rfl, Nat.le_of_ble_eq_true rfl⟩ (Nat.le_of_ble_eq_true rfl) rfl ⟨Nat.le_of_ble_eq_true rfl, Nat.le_of_ble_eq_true rfl⟩ rfl rfl dX3_readItem_59 (fun r2 s2 hp hn2 => ?_)
      subst hp
      try dsimp only at h
      refine r_pop G rfl dX3_readItem_62 ?_
      refine r_aload_n G 0 rfl rfl dX3_readItem_63 ?_
      refine r_bipush G (v := 6) (by decide) dX3_readItem_64 ?_
      refine r_put G (C := RX3) (T := TX3) (N := 15) kX3_readItem_X3 tyX3 tyX3_ok nmX3 72 (cw_READER ad κ _) rfl 8 (by decide) mX3_readItem_f78 rfl rfl (tyX3_ok 8 (by decide)) rfl rfl (Nat.le_of_ble_eq_true rfl) (cu_Rstate ad κ _ _) dX3_readItem_66 ?_
      refine r_goto G (tgt := 76) dX3_readItem_69 (by decide) ?_
      exact hret _ _ _ _ _ dX3_readItem_76 (Option.some.inj h).symm (Nat.le_of_ble_eq_true rfl) (Nat.le_of_ble_eq_true rfl)
    · rw [if_neg c] at h
      refine r_iload_n G 1 rfl rfl dX3_readItem_30 ?_
      refine r_callSi G [.int p0] (qX3_isDigit hE p0 _) gX3_readItem_X3_isDigit rfl hdX3_isDigit ⟨Nat.le_of_ble_eq_true rfl, Nat.le_of_ble_eq_true rfl⟩ (Nat.le_of_ble_eq_true rfl) rfl ⟨Nat.le_of_ble_eq_true rfl, Nat.le_of_ble_eq_true rfl⟩ rfl rfl dX3_readItem_31 (fun r3 s3 hp hn3 => ?_)
      obtain ⟨rfl, hs⟩ := hp
      have hs := hs.symm
      subst hs
      refine r_if_eq G (tgt := 72) dX3_readItem_34 (by decide) (fun c => ?_) (fun c => ?_)
      · rw [if_pos c] at h
        refine r_aload_n G 0 rfl rfl dX3_readItem_72 ?_
        obtain ⟨o4, e4, h⟩ := ob h
        refine r_callVv G [] (qX3_refuseByte hE _ e4) ⟨72, 3, _, _, rfl, (cw_READER ad κ _), rfl⟩ gX3_readItem_X3_refuseByte rfl hdX3_refuseByte ⟨Nat.le_of_ble_eq_true rfl, Nat.le_of_ble_eq_true rfl⟩ (Nat.le_of_ble_eq_true rfl) rfl ⟨Nat.le_of_ble_eq_true rfl, Nat.le_of_ble_eq_true rfl⟩ rfl rfl dX3_readItem_73 (fun s4 hp => ?_)
        have hp := hp.symm
        subst hp
        try dsimp only at h
        exact hret _ _ _ _ _ dX3_readItem_76 (Option.some.inj h).symm (Nat.le_of_ble_eq_true rfl) (Nat.le_of_ble_eq_true rfl)
      · rw [if_neg c] at h
        refine r_aload_n G 0 rfl rfl dX3_readItem_37 ?_
        refine r_aload_n G 0 rfl rfl dX3_readItem_38 ?_
        refine r_iload_n G 1 rfl rfl dX3_readItem_39 ?_
        refine r_bipush G (v := (-50)) (by decide) dX3_readItem_40 ?_
        obtain ⟨o5, e5, h⟩ := ob h
        refine r_callVi G [.int p0, .int (-50)] (qX3_readNumber hE p0 (-50 : Int32) _ e5) ⟨72, 3, _, _, rfl, (cw_READER ad κ _), rfl⟩ gX3_readItem_X3_readNumber rfl hdX3_readNumber ⟨Nat.le_of_ble_eq_true rfl, Nat.le_of_ble_eq_true rfl⟩ (Nat.le_of_ble_eq_true rfl) rfl ⟨Nat.le_of_ble_eq_true rfl, Nat.le_of_ble_eq_true rfl⟩ rfl rfl dX3_readItem_42 (fun r5 s5 hp hn5 => ?_)
        subst hp
        try dsimp only at h
        refine r_put G (C := RX3) (T := TX3) (N := 15) kX3_readItem_X3 tyX3 tyX3_ok nmX3 72 (cw_READER ad κ _) rfl 11 (by decide) mX3_readItem_f163 rfl rfl (tyX3_ok 11 (by decide)) rfl rfl (Nat.le_of_ble_eq_true rfl) (cu_Rfirst ad κ _ _) dX3_readItem_45 ?_
        refine r_aload_n G 0 rfl rfl dX3_readItem_48 ?_
        refine r_get G (C := RX3) (T := TX3) (N := 15) kX3_readItem_X3 72 (cw_READER ad κ _) rfl 2 (by decide) mX3_readItem_f22 rfl rfl dX3_readItem_49 ?_
        refine r_aload_n G 0 rfl rfl dX3_readItem_52 ?_
        refine r_get G (C := RX3) (T := TX3) (N := 15) kX3_readItem_X3 72 (cw_READER ad κ _) rfl 11 (by decide) mX3_readItem_f163 rfl rfl dX3_readItem_53 ?_
        refine r_bipush G (v := 51) (by decide) dX3_readItem_56 ?_
        refine r_iadd G dX3_readItem_58 ?_
        obtain ⟨o6, e6, h⟩ := ob h
        refine r_callVi G [.int ((sI (uI s5 7 r5) 7) + 51)] (qX2_put hE 33 (by decide) ((sI (uI s5 7 r5) 7) + 51) _ e6) ⟨33, 2, _, _, rfl, (cw_MS ad κ _ (by decide)), rfl⟩ gX3_readItem_X2_put rfl hdX2_put ⟨Nat.le_of_ble_eq_true rfl, Nat.le_of_ble_eq_true rfl⟩ (Nat.le_of_ble_eq_true rfl) rfl ⟨Nat.le_of_ble_eq_true rfl, Nat.le_of_ble_eq_true rfl⟩ rfl rfl dX3_readItem_59 (fun r6 s6 hp hn6 => ?_)
        subst hp
        try dsimp only at h
        refine r_pop G rfl dX3_readItem_62 ?_
        refine r_aload_n G 0 rfl rfl dX3_readItem_63 ?_
        refine r_bipush G (v := 6) (by decide) dX3_readItem_64 ?_
        refine r_put G (C := RX3) (T := TX3) (N := 15) kX3_readItem_X3 tyX3 tyX3_ok nmX3 72 (cw_READER ad κ _) rfl 8 (by decide) mX3_readItem_f78 rfl rfl (tyX3_ok 8 (by decide)) rfl rfl (Nat.le_of_ble_eq_true rfl) (cu_Rstate ad κ _ _) dX3_readItem_66 ?_
        refine r_goto G (tgt := 76) dX3_readItem_69 (by decide) ?_
        exact hret _ _ _ _ _ dX3_readItem_76 (Option.some.inj h).symm (Nat.le_of_ble_eq_true rfl) (Nat.le_of_ble_eq_true rfl)
  · rw [if_pos c] at h
    refine r_aload_n G 0 rfl rfl dX3_readItem_6 ?_
    refine r_get G (C := RX3) (T := TX3) (N := 15) kX3_readItem_X3 72 (cw_READER ad κ _) rfl 2 (by decide) mX3_readItem_f22 rfl rfl dX3_readItem_7 ?_
    refine r_iconst G (v := 0) (by decide) dX3_readItem_10 ?_
    obtain ⟨o7, e7, h⟩ := ob h
    refine r_callVi G [.int 0] (qX2_put hE 33 (by decide) (0 : Int32) _ e7) ⟨33, 2, _, _, rfl, (cw_MS ad κ _ (by decide)), rfl⟩ gX3_readItem_X2_put rfl hdX2_put ⟨Nat.le_of_ble_eq_true rfl, Nat.le_of_ble_eq_true rfl⟩ (Nat.le_of_ble_eq_true rfl) rfl ⟨Nat.le_of_ble_eq_true rfl, Nat.le_of_ble_eq_true rfl⟩ rfl rfl dX3_readItem_11 (fun r7 s7 hp hn7 => ?_)
    subst hp
    try dsimp only at h
    refine r_pop G rfl dX3_readItem_14 ?_
    refine r_aload_n G 0 rfl rfl dX3_readItem_15 ?_
    refine r_bipush G (v := 8) (by decide) dX3_readItem_16 ?_
    obtain ⟨o8, e8, h⟩ := ob h
    refine r_callVv G [.int 8] (qX3_pass hE (8 : Int32) _ e8) ⟨72, 3, _, _, rfl, (cw_READER ad κ _), rfl⟩ gX3_readItem_X3_pass rfl hdX3_pass ⟨Nat.le_of_ble_eq_true rfl, Nat.le_of_ble_eq_true rfl⟩ (Nat.le_of_ble_eq_true rfl) rfl ⟨Nat.le_of_ble_eq_true rfl, Nat.le_of_ble_eq_true rfl⟩ rfl rfl dX3_readItem_18 (fun s8 hp => ?_)
    have hp := hp.symm
    subst hp
    try dsimp only at h
    refine r_goto G (tgt := 76) dX3_readItem_21 (by decide) ?_
    exact hret _ _ _ _ _ dX3_readItem_76 (Option.some.inj h).symm (Nat.le_of_ble_eq_true rfl) (Nat.le_of_ble_eq_true rfl)
abbrev rmX3_readFirstItem : Room := { frames := 3, cells := 0, slots := 0, locals := 68 }
theorem hdX3_readItem : yX3_readItem.cls = RX3 ∧ yX3_readItem.cls ≠ "java/lang/invoke/MethodHandle" ∧ yX3_readItem.cls ≠ "java/lang/invoke/VarHandle" ∧ (parseMethodDescriptor yX3_readItem.desc).map (fun d => d.parameters.length) = some 1 := by decide +kernel
set_option maxRecDepth 20000 in
theorem kX3_readFirstItem_X3 : ∀ w ∈ u_ws RX3 TX3 15, w ∈ wsX3_readFirstItem := by decide +kernel
set_option maxRecDepth 20000 in
theorem mX3_readFirstItem_f22 : Cond.fieldLink RX3 22 "SetCouncil$Reader" "braces" "LSetCouncil$MemberSet;" ∈ wsX3_readFirstItem := by decide +kernel
set_option maxHeartbeats 4000000 in
set_option maxRecDepth 100000 in
theorem qX3_readFirstItem {E : evT} {l : Launch} {D : va_G} {ad : Nat → Nat} {κ : Nat → ClassId} (hE : EvOk E) (p0 : Int32) (s : cS) {o : (cS)} (h : fX3_readFirstItem p0 s = some o) : Cv l yX3_readFirstItem wsX3_readFirstItem rmX3_readFirstItem (cW ad κ) E D (tyA κ)  [.ref (ad 72), .int p0] s (fun s2 => o = s2) := by
  rw [fX3_readFirstItem] at h
  refine s_v (cc := cX3_readFirstItem) (nL := 2) (own := RX3) hE (cW_WA ad κ) (by decide) rfl rfl (Nat.le_of_ble_eq_true rfl) (fun Γ G hret => ?_)
  refine r_iload_n G 1 rfl rfl dX3_readFirstItem_0 ?_
  refine r_bipush G (v := 125) (by decide) dX3_readFirstItem_1 ?_
  refine r_icmp_ne G (tgt := 22) dX3_readFirstItem_3 (by decide) (fun c => ?_) (fun c => ?_)
  · rw [if_neg c] at h
    refine r_aload_n G 0 rfl rfl dX3_readFirstItem_22 ?_
    refine r_iload_n G 1 rfl rfl dX3_readFirstItem_23 ?_
    obtain ⟨o1, e1, h⟩ := ob h
    refine r_callVv G [.int p0] (qX3_readItem hE p0 _ e1) ⟨72, 3, _, _, rfl, (cw_READER ad κ _), rfl⟩ gX3_readFirstItem_X3_readItem rfl hdX3_readItem ⟨Nat.le_of_ble_eq_true rfl, Nat.le_of_ble_eq_true rfl⟩ (Nat.le_of_ble_eq_true rfl) rfl ⟨Nat.le_of_ble_eq_true rfl, Nat.le_of_ble_eq_true rfl⟩ rfl rfl dX3_readFirstItem_24 (fun s1 hp => ?_)
    have hp := hp.symm
    subst hp
    try dsimp only at h
    exact hret _ _ _ _ _ dX3_readFirstItem_27 (Option.some.inj h).symm (Nat.le_of_ble_eq_true rfl) (Nat.le_of_ble_eq_true rfl)
  · rw [if_pos c] at h
    refine r_aload_n G 0 rfl rfl dX3_readFirstItem_6 ?_
    refine r_aload_n G 0 rfl rfl dX3_readFirstItem_7 ?_
    refine r_get G (C := RX3) (T := TX3) (N := 15) kX3_readFirstItem_X3 72 (cw_READER ad κ _) rfl 2 (by decide) mX3_readFirstItem_f22 rfl rfl dX3_readFirstItem_8 ?_
    obtain ⟨o2, e2, h⟩ := ob h
    refine r_callVv G [.ref (ad 33)] (qX3_useFactor hE 33 (by decide) _ e2) ⟨72, 3, _, _, rfl, (cw_READER ad κ _), rfl⟩ gX3_readFirstItem_X3_useFactor rfl hdX3_useFactor ⟨Nat.le_of_ble_eq_true rfl, Nat.le_of_ble_eq_true rfl⟩ (Nat.le_of_ble_eq_true rfl) rfl ⟨Nat.le_of_ble_eq_true rfl, Nat.le_of_ble_eq_true rfl⟩ rfl rfl dX3_readFirstItem_11 (fun s2 hp => ?_)
    have hp := hp.symm
    subst hp
    try dsimp only at h
    refine r_aload_n G 0 rfl rfl dX3_readFirstItem_14 ?_
    refine r_iconst G (v := 3) (by decide) dX3_readFirstItem_15 ?_
    obtain ⟨o3, e3, h⟩ := ob h
    refine r_callVv G [.int 3] (qX3_pass hE (3 : Int32) _ e3) ⟨72, 3, _, _, rfl, (cw_READER ad κ _), rfl⟩ gX3_readFirstItem_X3_pass rfl hdX3_pass ⟨Nat.le_of_ble_eq_true rfl, Nat.le_of_ble_eq_true rfl⟩ (Nat.le_of_ble_eq_true rfl) rfl ⟨Nat.le_of_ble_eq_true rfl, Nat.le_of_ble_eq_true rfl⟩ rfl rfl dX3_readFirstItem_16 (fun s3 hp => ?_)
    have hp := hp.symm
    subst hp
    try dsimp only at h
    refine r_goto G (tgt := 27) dX3_readFirstItem_19 (by decide) ?_
    exact hret _ _ _ _ _ dX3_readFirstItem_27 (Option.some.inj h).symm (Nat.le_of_ble_eq_true rfl) (Nat.le_of_ble_eq_true rfl)
abbrev rmX3_readBehindItem : Room := { frames := 2, cells := 0, slots := 0, locals := 47 }
set_option maxRecDepth 20000 in
theorem kX3_readBehindItem_X3 : ∀ w ∈ u_ws RX3 TX3 15, w ∈ wsX3_readBehindItem := by decide +kernel
set_option maxRecDepth 20000 in
theorem mX3_readBehindItem_f22 : Cond.fieldLink RX3 22 "SetCouncil$Reader" "braces" "LSetCouncil$MemberSet;" ∈ wsX3_readBehindItem := by decide +kernel
set_option maxHeartbeats 4000000 in
set_option maxRecDepth 100000 in
theorem qX3_readBehindItem {E : evT} {l : Launch} {D : va_G} {ad : Nat → Nat} {κ : Nat → ClassId} (hE : EvOk E) (p0 : Int32) (s : cS) {o : (cS)} (h : fX3_readBehindItem p0 s = some o) : Cv l yX3_readBehindItem wsX3_readBehindItem rmX3_readBehindItem (cW ad κ) E D (tyA κ)  [.ref (ad 72), .int p0] s (fun s2 => o = s2) := by
  rw [fX3_readBehindItem] at h
  refine s_v (cc := cX3_readBehindItem) (nL := 2) (own := RX3) hE (cW_WA ad κ) (by decide) rfl rfl (Nat.le_of_ble_eq_true rfl) (fun Γ G hret => ?_)
  refine r_iload_n G 1 rfl rfl dX3_readBehindItem_0 ?_
  refine r_bipush G (v := 44) (by decide) dX3_readBehindItem_1 ?_
  refine r_icmp_ne G (tgt := 14) dX3_readBehindItem_3 (by decide) (fun c => ?_) (fun c => ?_)
  · rw [if_neg c] at h
    refine r_iload_n G 1 rfl rfl dX3_readBehindItem_14 ?_
    refine r_bipush G (v := 125) (by decide) dX3_readBehindItem_15 ?_
    refine r_icmp_ne G (tgt := 36) dX3_readBehindItem_17 (by decide) (fun c => ?_) (fun c => ?_)
    · rw [if_neg c] at h
      refine r_aload_n G 0 rfl rfl dX3_readBehindItem_36 ?_
      obtain ⟨o1, e1, h⟩ := ob h
      refine r_callVv G [] (qX3_refuseByte hE _ e1) ⟨72, 3, _, _, rfl, (cw_READER ad κ _), rfl⟩ gX3_readBehindItem_X3_refuseByte rfl hdX3_refuseByte ⟨Nat.le_of_ble_eq_true rfl, Nat.le_of_ble_eq_true rfl⟩ (Nat.le_of_ble_eq_true rfl) rfl ⟨Nat.le_of_ble_eq_true rfl, Nat.le_of_ble_eq_true rfl⟩ rfl rfl dX3_readBehindItem_37 (fun s1 hp => ?_)
      have hp := hp.symm
      subst hp
      try dsimp only at h
      exact hret _ _ _ _ _ dX3_readBehindItem_40 (Option.some.inj h).symm (Nat.le_of_ble_eq_true rfl) (Nat.le_of_ble_eq_true rfl)
    · rw [if_pos c] at h
      refine r_aload_n G 0 rfl rfl dX3_readBehindItem_20 ?_
      refine r_aload_n G 0 rfl rfl dX3_readBehindItem_21 ?_
      refine r_get G (C := RX3) (T := TX3) (N := 15) kX3_readBehindItem_X3 72 (cw_READER ad κ _) rfl 2 (by decide) mX3_readBehindItem_f22 rfl rfl dX3_readBehindItem_22 ?_
      obtain ⟨o2, e2, h⟩ := ob h
      refine r_callVv G [.ref (ad 33)] (qX3_useFactor hE 33 (by decide) _ e2) ⟨72, 3, _, _, rfl, (cw_READER ad κ _), rfl⟩ gX3_readBehindItem_X3_useFactor rfl hdX3_useFactor ⟨Nat.le_of_ble_eq_true rfl, Nat.le_of_ble_eq_true rfl⟩ (Nat.le_of_ble_eq_true rfl) rfl ⟨Nat.le_of_ble_eq_true rfl, Nat.le_of_ble_eq_true rfl⟩ rfl rfl dX3_readBehindItem_25 (fun s2 hp => ?_)
      have hp := hp.symm
      subst hp
      try dsimp only at h
      refine r_aload_n G 0 rfl rfl dX3_readBehindItem_28 ?_
      refine r_iconst G (v := 3) (by decide) dX3_readBehindItem_29 ?_
      obtain ⟨o3, e3, h⟩ := ob h
      refine r_callVv G [.int 3] (qX3_pass hE (3 : Int32) _ e3) ⟨72, 3, _, _, rfl, (cw_READER ad κ _), rfl⟩ gX3_readBehindItem_X3_pass rfl hdX3_pass ⟨Nat.le_of_ble_eq_true rfl, Nat.le_of_ble_eq_true rfl⟩ (Nat.le_of_ble_eq_true rfl) rfl ⟨Nat.le_of_ble_eq_true rfl, Nat.le_of_ble_eq_true rfl⟩ rfl rfl dX3_readBehindItem_30 (fun s3 hp => ?_)
      have hp := hp.symm
      subst hp
      try dsimp only at h
      refine r_goto G (tgt := 40) dX3_readBehindItem_33 (by decide) ?_
      exact hret _ _ _ _ _ dX3_readBehindItem_40 (Option.some.inj h).symm (Nat.le_of_ble_eq_true rfl) (Nat.le_of_ble_eq_true rfl)
  · rw [if_pos c] at h
    refine r_aload_n G 0 rfl rfl dX3_readBehindItem_6 ?_
    refine r_iconst G (v := 5) (by decide) dX3_readBehindItem_7 ?_
    obtain ⟨o4, e4, h⟩ := ob h
    refine r_callVv G [.int 5] (qX3_pass hE (5 : Int32) _ e4) ⟨72, 3, _, _, rfl, (cw_READER ad κ _), rfl⟩ gX3_readBehindItem_X3_pass rfl hdX3_pass ⟨Nat.le_of_ble_eq_true rfl, Nat.le_of_ble_eq_true rfl⟩ (Nat.le_of_ble_eq_true rfl) rfl ⟨Nat.le_of_ble_eq_true rfl, Nat.le_of_ble_eq_true rfl⟩ rfl rfl dX3_readBehindItem_8 (fun s4 hp => ?_)
    have hp := hp.symm
    subst hp
    try dsimp only at h
    refine r_goto G (tgt := 40) dX3_readBehindItem_11 (by decide) ?_
    exact hret _ _ _ _ _ dX3_readBehindItem_40 (Option.some.inj h).symm (Nat.le_of_ble_eq_true rfl) (Nat.le_of_ble_eq_true rfl)
abbrev rmX3_readBehindNumber : Room := { frames := 3, cells := 0, slots := 0, locals := 68 }
theorem hdX3_readBehindItem : yX3_readBehindItem.cls = RX3 ∧ yX3_readBehindItem.cls ≠ "java/lang/invoke/MethodHandle" ∧ yX3_readBehindItem.cls ≠ "java/lang/invoke/VarHandle" ∧ (parseMethodDescriptor yX3_readBehindItem.desc).map (fun d => d.parameters.length) = some 1 := by decide +kernel
set_option maxRecDepth 20000 in
theorem kX3_readBehindNumber_X3 : ∀ w ∈ u_ws RX3 TX3 15, w ∈ wsX3_readBehindNumber := by decide +kernel
set_option maxRecDepth 20000 in
theorem mX3_readBehindNumber_f61 : Cond.fieldLink RX3 61 "SetCouncil$Reader" "at" "I" ∈ wsX3_readBehindNumber := by decide +kernel
set_option maxRecDepth 20000 in
theorem mX3_readBehindNumber_f9 : Cond.fieldLink RX3 9 "SetCouncil$Reader" "text" "LSetCouncil$Text;" ∈ wsX3_readBehindNumber := by decide +kernel
set_option maxHeartbeats 4000000 in
set_option maxRecDepth 100000 in
theorem qX3_readBehindNumber {E : evT} {l : Launch} {D : va_G} {ad : Nat → Nat} {κ : Nat → ClassId} (hE : EvOk E) (p0 : Int32) (s : cS) {o : (cS)} (h : fX3_readBehindNumber p0 s = some o) : Cv l yX3_readBehindNumber wsX3_readBehindNumber rmX3_readBehindNumber (cW ad κ) E D (tyA κ)  [.ref (ad 72), .int p0] s (fun s2 => o = s2) := by
  rw [fX3_readBehindNumber] at h
  refine s_v (cc := cX3_readBehindNumber) (nL := 2) (own := RX3) hE (cW_WA ad κ) (by decide) rfl rfl (Nat.le_of_ble_eq_true rfl) (fun Γ G hret => ?_)
  refine r_iload_n G 1 rfl rfl dX3_readBehindNumber_0 ?_
  refine r_bipush G (v := 46) (by decide) dX3_readBehindNumber_1 ?_
  refine r_icmp_ne G (tgt := 48) dX3_readBehindNumber_3 (by decide) (fun c => ?_) (fun c => ?_)
  · rw [if_neg c] at h
    refine r_aload_n G 0 rfl rfl dX3_readBehindNumber_48 ?_
    refine r_iload_n G 1 rfl rfl dX3_readBehindNumber_49 ?_
    obtain ⟨o1, e1, h⟩ := ob h
    refine r_callVv G [.int p0] (qX3_readBehindItem hE p0 _ e1) ⟨72, 3, _, _, rfl, (cw_READER ad κ _), rfl⟩ gX3_readBehindNumber_X3_readBehindItem rfl hdX3_readBehindItem ⟨Nat.le_of_ble_eq_true rfl, Nat.le_of_ble_eq_true rfl⟩ (Nat.le_of_ble_eq_true rfl) rfl ⟨Nat.le_of_ble_eq_true rfl, Nat.le_of_ble_eq_true rfl⟩ rfl rfl dX3_readBehindNumber_50 (fun s1 hp => ?_)
    have hp := hp.symm
    subst hp
    try dsimp only at h
    exact hret _ _ _ _ _ dX3_readBehindNumber_53 (Option.some.inj h).symm (Nat.le_of_ble_eq_true rfl) (Nat.le_of_ble_eq_true rfl)
  · rw [if_pos c] at h
    refine r_aload_n G 0 rfl rfl dX3_readBehindNumber_6 ?_
    refine r_dup G rfl dX3_readBehindNumber_7 ?_
    refine r_get G (C := RX3) (T := TX3) (N := 15) kX3_readBehindNumber_X3 72 (cw_READER ad κ _) rfl 7 (by decide) mX3_readBehindNumber_f61 rfl rfl dX3_readBehindNumber_8 ?_
    refine r_iconst G (v := 1) (by decide) dX3_readBehindNumber_11 ?_
    refine r_iadd G dX3_readBehindNumber_12 ?_
    refine r_put G (C := RX3) (T := TX3) (N := 15) kX3_readBehindNumber_X3 tyX3 tyX3_ok nmX3 72 (cw_READER ad κ _) rfl 7 (by decide) mX3_readBehindNumber_f61 rfl rfl (tyX3_ok 7 (by decide)) rfl rfl (Nat.le_of_ble_eq_true rfl) (cu_Rat ad κ _ _) dX3_readBehindNumber_13 ?_
    refine r_aload_n G 0 rfl rfl dX3_readBehindNumber_16 ?_
    refine r_get G (C := RX3) (T := TX3) (N := 15) kX3_readBehindNumber_X3 72 (cw_READER ad κ _) rfl 0 (by decide) mX3_readBehindNumber_f9 rfl rfl dX3_readBehindNumber_17 ?_
    refine r_aload_n G 0 rfl rfl dX3_readBehindNumber_20 ?_
    refine r_get G (C := RX3) (T := TX3) (N := 15) kX3_readBehindNumber_X3 72 (cw_READER ad κ _) rfl 7 (by decide) mX3_readBehindNumber_f61 rfl rfl dX3_readBehindNumber_21 ?_
    obtain ⟨o2, e2, h⟩ := ob h
    refine r_callVi G [.int (sI (uI s 3 ((sI s 3) + 1)) 3)] (qX4_byteAt hE (sI (uI s 3 ((sI s 3) + 1)) 3) _ e2) ⟨70, 4, _, _, rfl, (cw_TEXT ad κ _), rfl⟩ gX3_readBehindNumber_X4_byteAt rfl hdX4_byteAt ⟨Nat.le_of_ble_eq_true rfl, Nat.le_of_ble_eq_true rfl⟩ (Nat.le_of_ble_eq_true rfl) rfl ⟨Nat.le_of_ble_eq_true rfl, Nat.le_of_ble_eq_true rfl⟩ rfl rfl dX3_readBehindNumber_24 (fun r2 s2 hp hn2 => ?_)
    subst hp
    try dsimp only at h
    refine r_bipush G (v := 46) (by decide) dX3_readBehindNumber_27 ?_
    refine r_icmp_ne G (tgt := 41) dX3_readBehindNumber_29 (by decide) (fun c => ?_) (fun c => ?_)
    · rw [if_neg c] at h
      refine r_aload_n G 0 rfl rfl dX3_readBehindNumber_41 ?_
      obtain ⟨o3, e3, h⟩ := ob h
      refine r_callVv G [] (qX3_refuseByte hE _ e3) ⟨72, 3, _, _, rfl, (cw_READER ad κ _), rfl⟩ gX3_readBehindNumber_X3_refuseByte rfl hdX3_refuseByte ⟨Nat.le_of_ble_eq_true rfl, Nat.le_of_ble_eq_true rfl⟩ (Nat.le_of_ble_eq_true rfl) rfl ⟨Nat.le_of_ble_eq_true rfl, Nat.le_of_ble_eq_true rfl⟩ rfl rfl dX3_readBehindNumber_42 (fun s3 hp => ?_)
      have hp := hp.symm
      subst hp
      try dsimp only at h
      refine r_goto G (tgt := 53) dX3_readBehindNumber_45 (by decide) ?_
      exact hret _ _ _ _ _ dX3_readBehindNumber_53 (Option.some.inj h).symm (Nat.le_of_ble_eq_true rfl) (Nat.le_of_ble_eq_true rfl)
    · rw [if_pos c] at h
      refine r_aload_n G 0 rfl rfl dX3_readBehindNumber_32 ?_
      refine r_bipush G (v := 7) (by decide) dX3_readBehindNumber_33 ?_
      obtain ⟨o4, e4, h⟩ := ob h
      refine r_callVv G [.int 7] (qX3_pass hE (7 : Int32) _ e4) ⟨72, 3, _, _, rfl, (cw_READER ad κ _), rfl⟩ gX3_readBehindNumber_X3_pass rfl hdX3_pass ⟨Nat.le_of_ble_eq_true rfl, Nat.le_of_ble_eq_true rfl⟩ (Nat.le_of_ble_eq_true rfl) rfl ⟨Nat.le_of_ble_eq_true rfl, Nat.le_of_ble_eq_true rfl⟩ rfl rfl dX3_readBehindNumber_35 (fun s4 hp => ?_)
      have hp := hp.symm
      subst hp
      try dsimp only at h
      refine r_goto G (tgt := 53) dX3_readBehindNumber_38 (by decide) ?_
      exact hret _ _ _ _ _ dX3_readBehindNumber_53 (Option.some.inj h).symm (Nat.le_of_ble_eq_true rfl) (Nat.le_of_ble_eq_true rfl)
abbrev rmX3_readSecondNumber : Room := { frames := 2, cells := 0, slots := 0, locals := 47 }
set_option maxRecDepth 20000 in
theorem kX3_readSecondNumber_X3 : ∀ w ∈ u_ws RX3 TX3 15, w ∈ wsX3_readSecondNumber := by decide +kernel
set_option maxRecDepth 20000 in
theorem mX3_readSecondNumber_f163 : Cond.fieldLink RX3 163 "SetCouncil$Reader" "first" "I" ∈ wsX3_readSecondNumber := by decide +kernel
set_option maxRecDepth 20000 in
theorem mX3_readSecondNumber_f22 : Cond.fieldLink RX3 22 "SetCouncil$Reader" "braces" "LSetCouncil$MemberSet;" ∈ wsX3_readSecondNumber := by decide +kernel
set_option maxHeartbeats 4000000 in
set_option maxRecDepth 100000 in
theorem wX3_readSecondNumber_L28 {E : evT} {l : Launch} {D : va_G} {ad : Nat → Nat} {κ : Nat → ClassId} (hE : EvOk E) {Γ : cxT} (G : Cx (cW ad κ) D (tyA κ) E l Γ cX3_readSecondNumber RX3 wsX3_readSecondNumber 4 rmX3_readSecondNumber) (x2 : Int32) {o : (cS)} (hret : ∀ (st2 : cS) (cells slots pc : Nat) (lv : List (Nat × Value)), decode cX3_readSecondNumber pc = .ok (.return_, 1) → o = st2 → cells ≤ rmX3_readSecondNumber.cells → slots ≤ rmX3_readSecondNumber.slots → V (cW ad κ) D Γ st2 cells slots pc lv []) {k0 : cS → Option (cS)} (hk0 : ∀ (s : cS), k0 s = some o → V (cW ad κ) D Γ s 0 0 57 [(0, .ref (ad 72))] []) : ∀ (fuel : Nat) (x3 : Int32) (s : cS), fX3_readSecondNumber_L28 x2 k0 fuel x3 s = some o → V (cW ad κ) D Γ s 0 0 28 [(0, .ref (ad 72)), (2, .int x2), (3, .int x3)] [] := by
  intro fuel
  induction fuel with
  | zero =>
    intro _ _ h
    have h : none = some o := h
    cases h
  | succ fuel ih =>
    intro x3 s h
    rw [fX3_readSecondNumber_L28] at h
    refine r_iload_n G 2 rfl rfl dX3_readSecondNumber_28 ?_
    refine r_iload_n G 1 rfl rfl dX3_readSecondNumber_29 ?_
    refine r_icmp_gt G (tgt := 57) dX3_readSecondNumber_30 (by decide) (fun c => ?_) (fun c => ?_)
    · rw [if_pos c] at h
      refine V.sub [0] rfl ?_
      exact hk0 _ h
    · rw [if_neg c] at h
      refine r_iload_n G 2 rfl rfl dX3_readSecondNumber_33 ?_
      refine r_bipush G (v := 50) (by decide) dX3_readSecondNumber_34 ?_
      refine r_icmp_gt G (tgt := 57) dX3_readSecondNumber_36 (by decide) (fun c => ?_) (fun c => ?_)
      · rw [if_pos c] at h
        refine V.sub [0] rfl ?_
        exact hk0 _ h
      · rw [if_neg c] at h
        refine r_aload_n G 0 rfl rfl dX3_readSecondNumber_39 ?_
        refine r_get G (C := RX3) (T := TX3) (N := 15) kX3_readSecondNumber_X3 72 (cw_READER ad κ _) rfl 2 (by decide) mX3_readSecondNumber_f22 rfl rfl dX3_readSecondNumber_40 ?_
        refine r_iload_n G 2 rfl rfl dX3_readSecondNumber_43 ?_
        refine r_bipush G (v := 51) (by decide) dX3_readSecondNumber_44 ?_
        refine r_iadd G dX3_readSecondNumber_46 ?_
        obtain ⟨o2, e2, h⟩ := ob h
        refine r_callVi G [.int (x3 + 51)] (qX2_put hE 33 (by decide) (x3 + 51) _ e2) ⟨33, 2, _, _, rfl, (cw_MS ad κ _ (by decide)), rfl⟩ gX3_readSecondNumber_X2_put rfl hdX2_put ⟨Nat.le_of_ble_eq_true rfl, Nat.le_of_ble_eq_true rfl⟩ (Nat.le_of_ble_eq_true rfl) rfl ⟨Nat.le_of_ble_eq_true rfl, Nat.le_of_ble_eq_true rfl⟩ rfl rfl dX3_readSecondNumber_47 (fun r2 s2 hp hn2 => ?_)
        subst hp
        try dsimp only at h
        refine r_pop G rfl dX3_readSecondNumber_50 ?_
        refine r_iinc G (j := 2) rfl (v := x3 + 1) rfl [1, 2, 0] rfl (by decide) dX3_readSecondNumber_51 ?_
        refine r_goto G (tgt := 28) dX3_readSecondNumber_54 (by decide) ?_
        exact ih _ _ h
set_option maxRecDepth 20000 in
theorem mX3_readSecondNumber_f78 : Cond.fieldLink RX3 78 "SetCouncil$Reader" "state" "I" ∈ wsX3_readSecondNumber := by decide +kernel
set_option maxHeartbeats 4000000 in
set_option maxRecDepth 100000 in
theorem qX3_readSecondNumber {E : evT} {l : Launch} {D : va_G} {ad : Nat → Nat} {κ : Nat → ClassId} (hE : EvOk E) (p0 : Int32) (s : cS) {o : (cS)} (h : fX3_readSecondNumber p0 s = some o) : Cv l yX3_readSecondNumber wsX3_readSecondNumber rmX3_readSecondNumber (cW ad κ) E D (tyA κ)  [.ref (ad 72), .int p0] s (fun s2 => o = s2) := by
  rw [fX3_readSecondNumber] at h
  refine s_v (cc := cX3_readSecondNumber) (nL := 4) (own := RX3) hE (cW_WA ad κ) (by decide) rfl rfl (Nat.le_of_ble_eq_true rfl) (fun Γ G hret => ?_)
  refine r_iload_n G 1 rfl rfl dX3_readSecondNumber_0 ?_
  refine r_bipush G (v := 45) (by decide) dX3_readSecondNumber_1 ?_
  refine r_icmp_eq G (tgt := 13) dX3_readSecondNumber_3 (by decide) (fun c => ?_) (fun c => ?_)
  · rw [if_pos c] at h
    refine r_aload_n G 0 rfl rfl dX3_readSecondNumber_13 ?_
    refine r_iload_n G 1 rfl rfl dX3_readSecondNumber_14 ?_
    refine r_aload_n G 0 rfl rfl dX3_readSecondNumber_15 ?_
    refine r_get G (C := RX3) (T := TX3) (N := 15) kX3_readSecondNumber_X3 72 (cw_READER ad κ _) rfl 11 (by decide) mX3_readSecondNumber_f163 rfl rfl dX3_readSecondNumber_16 ?_
    obtain ⟨o1, e1, h⟩ := ob h
    refine r_callVi G [.int p0, .int (sI s 7)] (qX3_readNumber hE p0 (sI s 7) _ e1) ⟨72, 3, _, _, rfl, (cw_READER ad κ _), rfl⟩ gX3_readSecondNumber_X3_readNumber rfl hdX3_readNumber ⟨Nat.le_of_ble_eq_true rfl, Nat.le_of_ble_eq_true rfl⟩ (Nat.le_of_ble_eq_true rfl) rfl ⟨Nat.le_of_ble_eq_true rfl, Nat.le_of_ble_eq_true rfl⟩ rfl rfl dX3_readSecondNumber_19 (fun r1 s1 hp hn1 => ?_)
    subst hp
    try dsimp only at h
    refine r_istore_n G [1, 0] rfl rfl (by decide) dX3_readSecondNumber_22 ?_
    refine r_aload_n G 0 rfl rfl dX3_readSecondNumber_23 ?_
    refine r_get G (C := RX3) (T := TX3) (N := 15) kX3_readSecondNumber_X3 72 (cw_READER ad κ _) rfl 11 (by decide) mX3_readSecondNumber_f163 rfl rfl dX3_readSecondNumber_24 ?_
    refine r_istore_n G [1, 2, 0] rfl rfl (by decide) dX3_readSecondNumber_27 ?_
    refine wX3_readSecondNumber_L28 hE G _ hret (fun s3 h => ?_) 1100 _ _ h
    · try dsimp only at h
      refine r_aload_n G 0 rfl rfl dX3_readSecondNumber_57 ?_
      refine r_bipush G (v := 8) (by decide) dX3_readSecondNumber_58 ?_
      refine r_put G (C := RX3) (T := TX3) (N := 15) kX3_readSecondNumber_X3 tyX3 tyX3_ok nmX3 72 (cw_READER ad κ _) rfl 8 (by decide) mX3_readSecondNumber_f78 rfl rfl (tyX3_ok 8 (by decide)) rfl rfl (Nat.le_of_ble_eq_true rfl) (cu_Rstate ad κ _ _) dX3_readSecondNumber_60 ?_
      refine r_goto G (tgt := 70) dX3_readSecondNumber_63 (by decide) ?_
      exact hret _ _ _ _ _ dX3_readSecondNumber_70 (Option.some.inj h).symm (Nat.le_of_ble_eq_true rfl) (Nat.le_of_ble_eq_true rfl)
  · rw [if_neg c] at h
    refine r_iload_n G 1 rfl rfl dX3_readSecondNumber_6 ?_
    refine r_callSi G [.int p0] (qX3_isDigit hE p0 _) gX3_readSecondNumber_X3_isDigit rfl hdX3_isDigit ⟨Nat.le_of_ble_eq_true rfl, Nat.le_of_ble_eq_true rfl⟩ (Nat.le_of_ble_eq_true rfl) rfl ⟨Nat.le_of_ble_eq_true rfl, Nat.le_of_ble_eq_true rfl⟩ rfl rfl dX3_readSecondNumber_7 (fun r4 s4 hp hn4 => ?_)
    obtain ⟨rfl, hs⟩ := hp
    have hs := hs.symm
    subst hs
    refine r_if_eq G (tgt := 66) dX3_readSecondNumber_10 (by decide) (fun c => ?_) (fun c => ?_)
    · rw [if_pos c] at h
      refine r_aload_n G 0 rfl rfl dX3_readSecondNumber_66 ?_
      obtain ⟨o5, e5, h⟩ := ob h
      refine r_callVv G [] (qX3_refuseByte hE _ e5) ⟨72, 3, _, _, rfl, (cw_READER ad κ _), rfl⟩ gX3_readSecondNumber_X3_refuseByte rfl hdX3_refuseByte ⟨Nat.le_of_ble_eq_true rfl, Nat.le_of_ble_eq_true rfl⟩ (Nat.le_of_ble_eq_true rfl) rfl ⟨Nat.le_of_ble_eq_true rfl, Nat.le_of_ble_eq_true rfl⟩ rfl rfl dX3_readSecondNumber_67 (fun s5 hp => ?_)
      have hp := hp.symm
      subst hp
      try dsimp only at h
      exact hret _ _ _ _ _ dX3_readSecondNumber_70 (Option.some.inj h).symm (Nat.le_of_ble_eq_true rfl) (Nat.le_of_ble_eq_true rfl)
    · rw [if_neg c] at h
      refine r_aload_n G 0 rfl rfl dX3_readSecondNumber_13 ?_
      refine r_iload_n G 1 rfl rfl dX3_readSecondNumber_14 ?_
      refine r_aload_n G 0 rfl rfl dX3_readSecondNumber_15 ?_
      refine r_get G (C := RX3) (T := TX3) (N := 15) kX3_readSecondNumber_X3 72 (cw_READER ad κ _) rfl 11 (by decide) mX3_readSecondNumber_f163 rfl rfl dX3_readSecondNumber_16 ?_
      obtain ⟨o6, e6, h⟩ := ob h
      refine r_callVi G [.int p0, .int (sI s 7)] (qX3_readNumber hE p0 (sI s 7) _ e6) ⟨72, 3, _, _, rfl, (cw_READER ad κ _), rfl⟩ gX3_readSecondNumber_X3_readNumber rfl hdX3_readNumber ⟨Nat.le_of_ble_eq_true rfl, Nat.le_of_ble_eq_true rfl⟩ (Nat.le_of_ble_eq_true rfl) rfl ⟨Nat.le_of_ble_eq_true rfl, Nat.le_of_ble_eq_true rfl⟩ rfl rfl dX3_readSecondNumber_19 (fun r6 s6 hp hn6 => ?_)
      subst hp
      try dsimp only at h
      refine r_istore_n G [1, 0] rfl rfl (by decide) dX3_readSecondNumber_22 ?_
      refine r_aload_n G 0 rfl rfl dX3_readSecondNumber_23 ?_
      refine r_get G (C := RX3) (T := TX3) (N := 15) kX3_readSecondNumber_X3 72 (cw_READER ad κ _) rfl 11 (by decide) mX3_readSecondNumber_f163 rfl rfl dX3_readSecondNumber_24 ?_
      refine r_istore_n G [1, 2, 0] rfl rfl (by decide) dX3_readSecondNumber_27 ?_
      refine wX3_readSecondNumber_L28 hE G _ hret (fun s7 h => ?_) 1100 _ _ h
      · try dsimp only at h
        refine r_aload_n G 0 rfl rfl dX3_readSecondNumber_57 ?_
        refine r_bipush G (v := 8) (by decide) dX3_readSecondNumber_58 ?_
        refine r_put G (C := RX3) (T := TX3) (N := 15) kX3_readSecondNumber_X3 tyX3 tyX3_ok nmX3 72 (cw_READER ad κ _) rfl 8 (by decide) mX3_readSecondNumber_f78 rfl rfl (tyX3_ok 8 (by decide)) rfl rfl (Nat.le_of_ble_eq_true rfl) (cu_Rstate ad κ _ _) dX3_readSecondNumber_60 ?_
        refine r_goto G (tgt := 70) dX3_readSecondNumber_63 (by decide) ?_
        exact hret _ _ _ _ _ dX3_readSecondNumber_70 (Option.some.inj h).symm (Nat.le_of_ble_eq_true rfl) (Nat.le_of_ble_eq_true rfl)
abbrev rmX3_readSign : Room := { frames := 4, cells := 0, slots := 0, locals := 89 }
set_option maxRecDepth 20000 in
theorem kX3_readSign_X3 : ∀ w ∈ u_ws RX3 TX3 15, w ∈ wsX3_readSign := by decide +kernel
set_option maxRecDepth 20000 in
theorem mX3_readSign_f78 : Cond.fieldLink RX3 78 "SetCouncil$Reader" "state" "I" ∈ wsX3_readSign := by decide +kernel
theorem hdX3_readTarget : yX3_readTarget.cls = RX3 ∧ yX3_readTarget.cls ≠ "java/lang/invoke/MethodHandle" ∧ yX3_readTarget.cls ≠ "java/lang/invoke/VarHandle" ∧ (parseMethodDescriptor yX3_readTarget.desc).map (fun d => d.parameters.length) = some 1 := by decide +kernel
theorem hdX3_readEquals : yX3_readEquals.cls = RX3 ∧ yX3_readEquals.cls ≠ "java/lang/invoke/MethodHandle" ∧ yX3_readEquals.cls ≠ "java/lang/invoke/VarHandle" ∧ (parseMethodDescriptor yX3_readEquals.desc).map (fun d => d.parameters.length) = some 1 := by decide +kernel
theorem hdX3_readFactor : yX3_readFactor.cls = RX3 ∧ yX3_readFactor.cls ≠ "java/lang/invoke/MethodHandle" ∧ yX3_readFactor.cls ≠ "java/lang/invoke/VarHandle" ∧ (parseMethodDescriptor yX3_readFactor.desc).map (fun d => d.parameters.length) = some 1 := by decide +kernel
theorem hdX3_readBehindFactor : yX3_readBehindFactor.cls = RX3 ∧ yX3_readBehindFactor.cls ≠ "java/lang/invoke/MethodHandle" ∧ yX3_readBehindFactor.cls ≠ "java/lang/invoke/VarHandle" ∧ (parseMethodDescriptor yX3_readBehindFactor.desc).map (fun d => d.parameters.length) = some 1 := by decide +kernel
theorem hdX3_readFirstItem : yX3_readFirstItem.cls = RX3 ∧ yX3_readFirstItem.cls ≠ "java/lang/invoke/MethodHandle" ∧ yX3_readFirstItem.cls ≠ "java/lang/invoke/VarHandle" ∧ (parseMethodDescriptor yX3_readFirstItem.desc).map (fun d => d.parameters.length) = some 1 := by decide +kernel
theorem hdX3_readBehindNumber : yX3_readBehindNumber.cls = RX3 ∧ yX3_readBehindNumber.cls ≠ "java/lang/invoke/MethodHandle" ∧ yX3_readBehindNumber.cls ≠ "java/lang/invoke/VarHandle" ∧ (parseMethodDescriptor yX3_readBehindNumber.desc).map (fun d => d.parameters.length) = some 1 := by decide +kernel
theorem hdX3_readSecondNumber : yX3_readSecondNumber.cls = RX3 ∧ yX3_readSecondNumber.cls ≠ "java/lang/invoke/MethodHandle" ∧ yX3_readSecondNumber.cls ≠ "java/lang/invoke/VarHandle" ∧ (parseMethodDescriptor yX3_readSecondNumber.desc).map (fun d => d.parameters.length) = some 1 := by decide +kernel
set_option maxHeartbeats 4000000 in
set_option maxRecDepth 100000 in
theorem qX3_readSign {E : evT} {l : Launch} {D : va_G} {ad : Nat → Nat} {κ : Nat → ClassId} (hE : EvOk E) (p0 : Int32) (s : cS) {o : (cS)} (h : fX3_readSign p0 s = some o) : Cv l yX3_readSign wsX3_readSign rmX3_readSign (cW ad κ) E D (tyA κ)  [.ref (ad 72), .int p0] s (fun s2 => o = s2) := by
  rw [fX3_readSign] at h
  refine s_v (cc := cX3_readSign) (nL := 2) (own := RX3) hE (cW_WA ad κ) (by decide) rfl rfl (Nat.le_of_ble_eq_true rfl) (fun Γ G hret => ?_)
  refine r_aload_n G 0 rfl rfl dX3_readSign_0 ?_
  refine r_get G (C := RX3) (T := TX3) (N := 15) kX3_readSign_X3 72 (cw_READER ad κ _) rfl 8 (by decide) mX3_readSign_f78 rfl rfl dX3_readSign_1 ?_
  by_cases c0 : (sI s 4) = 0
  · rw [if_pos c0] at h
    refine r_tableIn G (tgt := 52) dX3_readSign_4 (by rw [c0]; decide) (by rw [c0]; decide) (by rw [c0]; rfl) (by decide) ?_
    refine r_aload_n G 0 rfl rfl dX3_readSign_52 ?_
    refine r_iload_n G 1 rfl rfl dX3_readSign_53 ?_
    obtain ⟨o2, e2, h⟩ := ob h
    refine r_callVv G [.int p0] (qX3_readTarget hE p0 _ e2) ⟨72, 3, _, _, rfl, (cw_READER ad κ _), rfl⟩ gX3_readSign_X3_readTarget rfl hdX3_readTarget ⟨Nat.le_of_ble_eq_true rfl, Nat.le_of_ble_eq_true rfl⟩ (Nat.le_of_ble_eq_true rfl) rfl ⟨Nat.le_of_ble_eq_true rfl, Nat.le_of_ble_eq_true rfl⟩ rfl rfl dX3_readSign_54 (fun s2 hp => ?_)
    have hp := hp.symm
    subst hp
    try dsimp only at h
    refine r_goto G (tgt := 121) dX3_readSign_57 (by decide) ?_
    exact hret _ _ _ _ _ dX3_readSign_121 (Option.some.inj h).symm (Nat.le_of_ble_eq_true rfl) (Nat.le_of_ble_eq_true rfl)
  · rw [if_neg c0] at h
    by_cases c1 : (sI s 4) = 1
    · rw [if_pos c1] at h
      refine r_tableIn G (tgt := 60) dX3_readSign_4 (by rw [c1]; decide) (by rw [c1]; decide) (by rw [c1]; rfl) (by decide) ?_
      refine r_aload_n G 0 rfl rfl dX3_readSign_60 ?_
      refine r_iload_n G 1 rfl rfl dX3_readSign_61 ?_
      obtain ⟨o3, e3, h⟩ := ob h
      refine r_callVv G [.int p0] (qX3_readEquals hE p0 _ e3) ⟨72, 3, _, _, rfl, (cw_READER ad κ _), rfl⟩ gX3_readSign_X3_readEquals rfl hdX3_readEquals ⟨Nat.le_of_ble_eq_true rfl, Nat.le_of_ble_eq_true rfl⟩ (Nat.le_of_ble_eq_true rfl) rfl ⟨Nat.le_of_ble_eq_true rfl, Nat.le_of_ble_eq_true rfl⟩ rfl rfl dX3_readSign_62 (fun s3 hp => ?_)
      have hp := hp.symm
      subst hp
      try dsimp only at h
      refine r_goto G (tgt := 121) dX3_readSign_65 (by decide) ?_
      exact hret _ _ _ _ _ dX3_readSign_121 (Option.some.inj h).symm (Nat.le_of_ble_eq_true rfl) (Nat.le_of_ble_eq_true rfl)
    · rw [if_neg c1] at h
      by_cases c2 : (sI s 4) = 2
      · rw [if_pos c2] at h
        refine r_tableIn G (tgt := 68) dX3_readSign_4 (by rw [c2]; decide) (by rw [c2]; decide) (by rw [c2]; rfl) (by decide) ?_
        refine r_aload_n G 0 rfl rfl dX3_readSign_68 ?_
        refine r_iload_n G 1 rfl rfl dX3_readSign_69 ?_
        obtain ⟨o4, e4, h⟩ := ob h
        refine r_callVv G [.int p0] (qX3_readFactor hE p0 _ e4) ⟨72, 3, _, _, rfl, (cw_READER ad κ _), rfl⟩ gX3_readSign_X3_readFactor rfl hdX3_readFactor ⟨Nat.le_of_ble_eq_true rfl, Nat.le_of_ble_eq_true rfl⟩ (Nat.le_of_ble_eq_true rfl) rfl ⟨Nat.le_of_ble_eq_true rfl, Nat.le_of_ble_eq_true rfl⟩ rfl rfl dX3_readSign_70 (fun s4 hp => ?_)
        have hp := hp.symm
        subst hp
        try dsimp only at h
        refine r_goto G (tgt := 121) dX3_readSign_73 (by decide) ?_
        exact hret _ _ _ _ _ dX3_readSign_121 (Option.some.inj h).symm (Nat.le_of_ble_eq_true rfl) (Nat.le_of_ble_eq_true rfl)
      · rw [if_neg c2] at h
        by_cases c3 : (sI s 4) = 3
        · rw [if_pos c3] at h
          refine r_tableIn G (tgt := 76) dX3_readSign_4 (by rw [c3]; decide) (by rw [c3]; decide) (by rw [c3]; rfl) (by decide) ?_
          refine r_aload_n G 0 rfl rfl dX3_readSign_76 ?_
          refine r_iload_n G 1 rfl rfl dX3_readSign_77 ?_
          obtain ⟨o5, e5, h⟩ := ob h
          refine r_callVv G [.int p0] (qX3_readBehindFactor hE p0 _ e5) ⟨72, 3, _, _, rfl, (cw_READER ad κ _), rfl⟩ gX3_readSign_X3_readBehindFactor rfl hdX3_readBehindFactor ⟨Nat.le_of_ble_eq_true rfl, Nat.le_of_ble_eq_true rfl⟩ (Nat.le_of_ble_eq_true rfl) rfl ⟨Nat.le_of_ble_eq_true rfl, Nat.le_of_ble_eq_true rfl⟩ rfl rfl dX3_readSign_78 (fun s5 hp => ?_)
          have hp := hp.symm
          subst hp
          try dsimp only at h
          refine r_goto G (tgt := 121) dX3_readSign_81 (by decide) ?_
          exact hret _ _ _ _ _ dX3_readSign_121 (Option.some.inj h).symm (Nat.le_of_ble_eq_true rfl) (Nat.le_of_ble_eq_true rfl)
        · rw [if_neg c3] at h
          by_cases c4 : (sI s 4) = 4
          · rw [if_pos c4] at h
            refine r_tableIn G (tgt := 84) dX3_readSign_4 (by rw [c4]; decide) (by rw [c4]; decide) (by rw [c4]; rfl) (by decide) ?_
            refine r_aload_n G 0 rfl rfl dX3_readSign_84 ?_
            refine r_iload_n G 1 rfl rfl dX3_readSign_85 ?_
            obtain ⟨o6, e6, h⟩ := ob h
            refine r_callVv G [.int p0] (qX3_readFirstItem hE p0 _ e6) ⟨72, 3, _, _, rfl, (cw_READER ad κ _), rfl⟩ gX3_readSign_X3_readFirstItem rfl hdX3_readFirstItem ⟨Nat.le_of_ble_eq_true rfl, Nat.le_of_ble_eq_true rfl⟩ (Nat.le_of_ble_eq_true rfl) rfl ⟨Nat.le_of_ble_eq_true rfl, Nat.le_of_ble_eq_true rfl⟩ rfl rfl dX3_readSign_86 (fun s6 hp => ?_)
            have hp := hp.symm
            subst hp
            try dsimp only at h
            refine r_goto G (tgt := 121) dX3_readSign_89 (by decide) ?_
            exact hret _ _ _ _ _ dX3_readSign_121 (Option.some.inj h).symm (Nat.le_of_ble_eq_true rfl) (Nat.le_of_ble_eq_true rfl)
          · rw [if_neg c4] at h
            by_cases c5 : (sI s 4) = 5
            · rw [if_pos c5] at h
              refine r_tableIn G (tgt := 92) dX3_readSign_4 (by rw [c5]; decide) (by rw [c5]; decide) (by rw [c5]; rfl) (by decide) ?_
              refine r_aload_n G 0 rfl rfl dX3_readSign_92 ?_
              refine r_iload_n G 1 rfl rfl dX3_readSign_93 ?_
              obtain ⟨o7, e7, h⟩ := ob h
              refine r_callVv G [.int p0] (qX3_readItem hE p0 _ e7) ⟨72, 3, _, _, rfl, (cw_READER ad κ _), rfl⟩ gX3_readSign_X3_readItem rfl hdX3_readItem ⟨Nat.le_of_ble_eq_true rfl, Nat.le_of_ble_eq_true rfl⟩ (Nat.le_of_ble_eq_true rfl) rfl ⟨Nat.le_of_ble_eq_true rfl, Nat.le_of_ble_eq_true rfl⟩ rfl rfl dX3_readSign_94 (fun s7 hp => ?_)
              have hp := hp.symm
              subst hp
              try dsimp only at h
              refine r_goto G (tgt := 121) dX3_readSign_97 (by decide) ?_
              exact hret _ _ _ _ _ dX3_readSign_121 (Option.some.inj h).symm (Nat.le_of_ble_eq_true rfl) (Nat.le_of_ble_eq_true rfl)
            · rw [if_neg c5] at h
              by_cases c6 : (sI s 4) = 6
              · rw [if_pos c6] at h
                refine r_tableIn G (tgt := 100) dX3_readSign_4 (by rw [c6]; decide) (by rw [c6]; decide) (by rw [c6]; rfl) (by decide) ?_
                refine r_aload_n G 0 rfl rfl dX3_readSign_100 ?_
                refine r_iload_n G 1 rfl rfl dX3_readSign_101 ?_
                obtain ⟨o8, e8, h⟩ := ob h
                refine r_callVv G [.int p0] (qX3_readBehindNumber hE p0 _ e8) ⟨72, 3, _, _, rfl, (cw_READER ad κ _), rfl⟩ gX3_readSign_X3_readBehindNumber rfl hdX3_readBehindNumber ⟨Nat.le_of_ble_eq_true rfl, Nat.le_of_ble_eq_true rfl⟩ (Nat.le_of_ble_eq_true rfl) rfl ⟨Nat.le_of_ble_eq_true rfl, Nat.le_of_ble_eq_true rfl⟩ rfl rfl dX3_readSign_102 (fun s8 hp => ?_)
                have hp := hp.symm
                subst hp
                try dsimp only at h
                refine r_goto G (tgt := 121) dX3_readSign_105 (by decide) ?_
                exact hret _ _ _ _ _ dX3_readSign_121 (Option.some.inj h).symm (Nat.le_of_ble_eq_true rfl) (Nat.le_of_ble_eq_true rfl)
              · rw [if_neg c6] at h
                by_cases c7 : (sI s 4) = 7
                · rw [if_pos c7] at h
                  refine r_tableIn G (tgt := 108) dX3_readSign_4 (by rw [c7]; decide) (by rw [c7]; decide) (by rw [c7]; rfl) (by decide) ?_
                  refine r_aload_n G 0 rfl rfl dX3_readSign_108 ?_
                  refine r_iload_n G 1 rfl rfl dX3_readSign_109 ?_
                  obtain ⟨o9, e9, h⟩ := ob h
                  refine r_callVv G [.int p0] (qX3_readSecondNumber hE p0 _ e9) ⟨72, 3, _, _, rfl, (cw_READER ad κ _), rfl⟩ gX3_readSign_X3_readSecondNumber rfl hdX3_readSecondNumber ⟨Nat.le_of_ble_eq_true rfl, Nat.le_of_ble_eq_true rfl⟩ (Nat.le_of_ble_eq_true rfl) rfl ⟨Nat.le_of_ble_eq_true rfl, Nat.le_of_ble_eq_true rfl⟩ rfl rfl dX3_readSign_110 (fun s9 hp => ?_)
                  have hp := hp.symm
                  subst hp
                  try dsimp only at h
                  refine r_goto G (tgt := 121) dX3_readSign_113 (by decide) ?_
                  exact hret _ _ _ _ _ dX3_readSign_121 (Option.some.inj h).symm (Nat.le_of_ble_eq_true rfl) (Nat.le_of_ble_eq_true rfl)
                · rw [if_neg c7] at h
                  refine r_tableOut G (tgt := 116) dX3_readSign_4 (tsw 8 (lt_s (lt_s (lt_s (lt_s (lt_s (lt_s (lt_s (lt_s (lt_0) c0) c1) c2) c3) c4) c5) c6) c7)) (by decide) ?_
                  refine r_aload_n G 0 rfl rfl dX3_readSign_116 ?_
                  refine r_iload_n G 1 rfl rfl dX3_readSign_117 ?_
                  obtain ⟨o1, e1, h⟩ := ob h
                  refine r_callVv G [.int p0] (qX3_readBehindItem hE p0 _ e1) ⟨72, 3, _, _, rfl, (cw_READER ad κ _), rfl⟩ gX3_readSign_X3_readBehindItem rfl hdX3_readBehindItem ⟨Nat.le_of_ble_eq_true rfl, Nat.le_of_ble_eq_true rfl⟩ (Nat.le_of_ble_eq_true rfl) rfl ⟨Nat.le_of_ble_eq_true rfl, Nat.le_of_ble_eq_true rfl⟩ rfl rfl dX3_readSign_118 (fun s1 hp => ?_)
                  have hp := hp.symm
                  subst hp
                  try dsimp only at h
                  exact hret _ _ _ _ _ dX3_readSign_121 (Option.some.inj h).symm (Nat.le_of_ble_eq_true rfl) (Nat.le_of_ble_eq_true rfl)
abbrev rmX3_read : Room := { frames := 5, cells := 0, slots := 0, locals := 110 }
theorem hdX3_begin : yX3_begin.cls = RX3 ∧ yX3_begin.cls ≠ "java/lang/invoke/MethodHandle" ∧ yX3_begin.cls ≠ "java/lang/invoke/VarHandle" ∧ (parseMethodDescriptor yX3_begin.desc).map (fun d => d.parameters.length) = some 1 := by decide +kernel
set_option maxRecDepth 20000 in
theorem kX3_read_X3 : ∀ w ∈ u_ws RX3 TX3 15, w ∈ wsX3_read := by decide +kernel
set_option maxRecDepth 20000 in
theorem mX3_read_f44 : Cond.fieldLink RX3 44 "SetCouncil$Reader" "kind" "I" ∈ wsX3_read := by decide +kernel
theorem hdX3_passBlanks : yX3_passBlanks.cls = RX3 ∧ yX3_passBlanks.cls ≠ "java/lang/invoke/MethodHandle" ∧ yX3_passBlanks.cls ≠ "java/lang/invoke/VarHandle" ∧ (parseMethodDescriptor yX3_passBlanks.desc).map (fun d => d.parameters.length) = some 0 := by decide +kernel
set_option maxRecDepth 20000 in
theorem mX3_read_f61 : Cond.fieldLink RX3 61 "SetCouncil$Reader" "at" "I" ∈ wsX3_read := by decide +kernel
set_option maxRecDepth 20000 in
theorem mX3_read_f9 : Cond.fieldLink RX3 9 "SetCouncil$Reader" "text" "LSetCouncil$Text;" ∈ wsX3_read := by decide +kernel
theorem hdX3_readSign : yX3_readSign.cls = RX3 ∧ yX3_readSign.cls ≠ "java/lang/invoke/MethodHandle" ∧ yX3_readSign.cls ≠ "java/lang/invoke/VarHandle" ∧ (parseMethodDescriptor yX3_readSign.desc).map (fun d => d.parameters.length) = some 1 := by decide +kernel
set_option maxHeartbeats 4000000 in
set_option maxRecDepth 100000 in
theorem wX3_read_L7 {E : evT} {l : Launch} {D : va_G} {ad : Nat → Nat} {κ : Nat → ClassId} (hE : EvOk E) {Γ : cxT} (G : Cx (cW ad κ) D (tyA κ) E l Γ cX3_read RX3 wsX3_read 3 rmX3_read) {o : (cS)} (hret : ∀ (st2 : cS) (cells slots pc : Nat) (lv : List (Nat × Value)), decode cX3_read pc = .ok (.return_, 1) → o = st2 → cells ≤ rmX3_read.cells → slots ≤ rmX3_read.slots → V (cW ad κ) D Γ st2 cells slots pc lv []) {k0 : cS → Option (cS)} {k1 : cS → Option (cS)} (hk0 : ∀ (s : cS), k0 s = some o → V (cW ad κ) D Γ s 0 0 39 [(0, .ref (ad 72))] []) (hk1 : ∀ (s : cS), k1 s = some o → V (cW ad κ) D Γ s 0 0 63 [(0, .ref (ad 72))] []) : ∀ (fuel : Nat) (x2 : Int32) (s : cS), fX3_read_L7 k0 k1 fuel x2 s = some o → V (cW ad κ) D Γ s 0 0 7 [(0, .ref (ad 72)), (2, .int x2)] [] := by
  intro fuel
  induction fuel with
  | zero =>
    intro _ _ h
    have h : none = some o := h
    cases h
  | succ fuel ih =>
    intro x2 s h
    rw [fX3_read_L7] at h
    refine r_iload_n G 1 rfl rfl dX3_read_7 ?_
    refine r_sipush G (v := 200) (by decide) dX3_read_8 ?_
    refine r_icmp_gt G (tgt := 63) dX3_read_11 (by decide) (fun c => ?_) (fun c => ?_)
    · rw [if_pos c] at h
      refine V.sub [0] rfl ?_
      exact hk1 _ h
    · rw [if_neg c] at h
      refine r_aload_n G 0 rfl rfl dX3_read_14 ?_
      refine r_get G (C := RX3) (T := TX3) (N := 15) kX3_read_X3 72 (cw_READER ad κ _) rfl 13 (by decide) mX3_read_f44 rfl rfl dX3_read_15 ?_
      refine r_if_ne G (tgt := 63) dX3_read_18 (by decide) (fun c => ?_) (fun c => ?_)
      · rw [if_neg c] at h
        refine V.sub [0] rfl ?_
        exact hk1 _ h
      · rw [if_pos c] at h
        refine r_aload_n G 0 rfl rfl dX3_read_21 ?_
        obtain ⟨o2, e2, h⟩ := ob h
        refine r_callVv G [] (qX3_passBlanks hE _ e2) ⟨72, 3, _, _, rfl, (cw_READER ad κ _), rfl⟩ gX3_read_X3_passBlanks rfl hdX3_passBlanks ⟨Nat.le_of_ble_eq_true rfl, Nat.le_of_ble_eq_true rfl⟩ (Nat.le_of_ble_eq_true rfl) rfl ⟨Nat.le_of_ble_eq_true rfl, Nat.le_of_ble_eq_true rfl⟩ rfl rfl dX3_read_22 (fun s2 hp => ?_)
        have hp := hp.symm
        subst hp
        try dsimp only at h
        refine r_aload_n G 0 rfl rfl dX3_read_25 ?_
        refine r_get G (C := RX3) (T := TX3) (N := 15) kX3_read_X3 72 (cw_READER ad κ _) rfl 7 (by decide) mX3_read_f61 rfl rfl dX3_read_26 ?_
        refine r_aload_n G 0 rfl rfl dX3_read_29 ?_
        refine r_get G (C := RX3) (T := TX3) (N := 15) kX3_read_X3 72 (cw_READER ad κ _) rfl 0 (by decide) mX3_read_f9 rfl rfl dX3_read_30 ?_
        refine r_callVi G [] (qX4_length hE _) ⟨70, 4, _, _, rfl, (cw_TEXT ad κ _), rfl⟩ gX3_read_X4_length rfl hdX4_length ⟨Nat.le_of_ble_eq_true rfl, Nat.le_of_ble_eq_true rfl⟩ (Nat.le_of_ble_eq_true rfl) rfl ⟨Nat.le_of_ble_eq_true rfl, Nat.le_of_ble_eq_true rfl⟩ rfl rfl dX3_read_33 (fun r3 s3 hp hn3 => ?_)
        obtain ⟨rfl, hs⟩ := hp
        have hs := hs.symm
        subst hs
        refine r_icmp_lt G (tgt := 42) dX3_read_36 (by decide) (fun c => ?_) (fun c => ?_)
        · rw [if_pos c] at h
          refine r_aload_n G 0 rfl rfl dX3_read_42 ?_
          refine r_aload_n G 0 rfl rfl dX3_read_43 ?_
          refine r_get G (C := RX3) (T := TX3) (N := 15) kX3_read_X3 72 (cw_READER ad κ _) rfl 0 (by decide) mX3_read_f9 rfl rfl dX3_read_44 ?_
          refine r_aload_n G 0 rfl rfl dX3_read_47 ?_
          refine r_get G (C := RX3) (T := TX3) (N := 15) kX3_read_X3 72 (cw_READER ad κ _) rfl 7 (by decide) mX3_read_f61 rfl rfl dX3_read_48 ?_
          obtain ⟨o4, e4, h⟩ := ob h
          refine r_callVi G [.int (sI s2 3)] (qX4_byteAt hE (sI s2 3) _ e4) ⟨70, 4, _, _, rfl, (cw_TEXT ad κ _), rfl⟩ gX3_read_X4_byteAt rfl hdX4_byteAt ⟨Nat.le_of_ble_eq_true rfl, Nat.le_of_ble_eq_true rfl⟩ (Nat.le_of_ble_eq_true rfl) rfl ⟨Nat.le_of_ble_eq_true rfl, Nat.le_of_ble_eq_true rfl⟩ rfl rfl dX3_read_51 (fun r4 s4 hp hn4 => ?_)
          subst hp
          try dsimp only at h
          obtain ⟨o5, e5, h⟩ := ob h
          refine r_callVv G [.int r4] (qX3_readSign hE r4 _ e5) ⟨72, 3, _, _, rfl, (cw_READER ad κ _), rfl⟩ gX3_read_X3_readSign rfl hdX3_readSign ⟨Nat.le_of_ble_eq_true rfl, Nat.le_of_ble_eq_true rfl⟩ (Nat.le_of_ble_eq_true rfl) rfl ⟨Nat.le_of_ble_eq_true rfl, Nat.le_of_ble_eq_true rfl⟩ rfl rfl dX3_read_54 (fun s5 hp => ?_)
          have hp := hp.symm
          subst hp
          try dsimp only at h
          refine r_iinc G (j := 1) rfl (v := x2 + 1) rfl [1, 0] rfl (by decide) dX3_read_57 ?_
          refine r_goto G (tgt := 7) dX3_read_60 (by decide) ?_
          exact ih _ _ h
        · rw [if_neg c] at h
          refine V.sub [0] rfl ?_
          exact hk0 _ h
set_option maxRecDepth 20000 in
theorem mX3_read_f78 : Cond.fieldLink RX3 78 "SetCouncil$Reader" "state" "I" ∈ wsX3_read := by decide +kernel
set_option maxHeartbeats 4000000 in
set_option maxRecDepth 100000 in
theorem qX3_read {E : evT} {l : Launch} {D : va_G} {ad : Nat → Nat} {κ : Nat → ClassId} (hE : EvOk E) (s : cS) {o : (cS)} (h : fX3_read s = some o) : Cv l yX3_read wsX3_read rmX3_read (cW ad κ) E D (tyA κ)  [.ref (ad 72), .ref (ad 56)] s (fun s2 => o = s2) := by
  rw [fX3_read] at h
  refine s_v (cc := cX3_read) (nL := 3) (own := RX3) hE (cW_WA ad κ) (by decide) rfl rfl (Nat.le_of_ble_eq_true rfl) (fun Γ G hret => ?_)
  refine r_aload_n G 0 rfl rfl dX3_read_0 ?_
  refine r_aload_n G 1 rfl rfl dX3_read_1 ?_
  obtain ⟨o1, e1, h⟩ := ob h
  refine r_callVv G [.ref (ad 56)] (qX3_begin hE _ e1) ⟨72, 3, _, _, rfl, (cw_READER ad κ _), rfl⟩ gX3_read_X3_begin rfl hdX3_begin ⟨Nat.le_of_ble_eq_true rfl, Nat.le_of_ble_eq_true rfl⟩ (Nat.le_of_ble_eq_true rfl) rfl ⟨Nat.le_of_ble_eq_true rfl, Nat.le_of_ble_eq_true rfl⟩ rfl rfl dX3_read_2 (fun s1 hp => ?_)
  have hp := hp.symm
  subst hp
  try dsimp only at h
  refine r_iconst G (v := 0) (by decide) dX3_read_5 ?_
  refine r_istore_n G [1, 0] rfl rfl (by decide) dX3_read_6 ?_
  refine wX3_read_L7 hE G hret (fun s6 h => ?_) (fun s8 h => ?_) 1100 _ _ h
  · try dsimp only at h
    refine r_goto G (tgt := 63) dX3_read_39 (by decide) ?_
    refine r_aload_n G 0 rfl rfl dX3_read_63 ?_
    refine r_get G (C := RX3) (T := TX3) (N := 15) kX3_read_X3 72 (cw_READER ad κ _) rfl 13 (by decide) mX3_read_f44 rfl rfl dX3_read_64 ?_
    refine r_if_ne G (tgt := 81) dX3_read_67 (by decide) (fun c => ?_) (fun c => ?_)
    · rw [if_neg c] at h
      exact hret _ _ _ _ _ dX3_read_81 (Option.some.inj h).symm (Nat.le_of_ble_eq_true rfl) (Nat.le_of_ble_eq_true rfl)
    · rw [if_pos c] at h
      refine r_aload_n G 0 rfl rfl dX3_read_70 ?_
      refine r_get G (C := RX3) (T := TX3) (N := 15) kX3_read_X3 72 (cw_READER ad κ _) rfl 8 (by decide) mX3_read_f78 rfl rfl dX3_read_71 ?_
      refine r_if_eq G (tgt := 81) dX3_read_74 (by decide) (fun c => ?_) (fun c => ?_)
      · rw [if_pos c] at h
        exact hret _ _ _ _ _ dX3_read_81 (Option.some.inj h).symm (Nat.le_of_ble_eq_true rfl) (Nat.le_of_ble_eq_true rfl)
      · rw [if_neg c] at h
        refine r_aload_n G 0 rfl rfl dX3_read_77 ?_
        obtain ⟨o7, e7, h⟩ := ob h
        refine r_callVv G [] (qX3_refuseByte hE _ e7) ⟨72, 3, _, _, rfl, (cw_READER ad κ _), rfl⟩ gX3_read_X3_refuseByte rfl hdX3_refuseByte ⟨Nat.le_of_ble_eq_true rfl, Nat.le_of_ble_eq_true rfl⟩ (Nat.le_of_ble_eq_true rfl) rfl ⟨Nat.le_of_ble_eq_true rfl, Nat.le_of_ble_eq_true rfl⟩ rfl rfl dX3_read_78 (fun s7 hp => ?_)
        have hp := hp.symm
        subst hp
        try dsimp only at h
        exact hret _ _ _ _ _ dX3_read_81 (Option.some.inj h).symm (Nat.le_of_ble_eq_true rfl) (Nat.le_of_ble_eq_true rfl)
  · try dsimp only at h
    refine r_aload_n G 0 rfl rfl dX3_read_63 ?_
    refine r_get G (C := RX3) (T := TX3) (N := 15) kX3_read_X3 72 (cw_READER ad κ _) rfl 13 (by decide) mX3_read_f44 rfl rfl dX3_read_64 ?_
    refine r_if_ne G (tgt := 81) dX3_read_67 (by decide) (fun c => ?_) (fun c => ?_)
    · rw [if_neg c] at h
      exact hret _ _ _ _ _ dX3_read_81 (Option.some.inj h).symm (Nat.le_of_ble_eq_true rfl) (Nat.le_of_ble_eq_true rfl)
    · rw [if_pos c] at h
      refine r_aload_n G 0 rfl rfl dX3_read_70 ?_
      refine r_get G (C := RX3) (T := TX3) (N := 15) kX3_read_X3 72 (cw_READER ad κ _) rfl 8 (by decide) mX3_read_f78 rfl rfl dX3_read_71 ?_
      refine r_if_eq G (tgt := 81) dX3_read_74 (by decide) (fun c => ?_) (fun c => ?_)
      · rw [if_pos c] at h
        exact hret _ _ _ _ _ dX3_read_81 (Option.some.inj h).symm (Nat.le_of_ble_eq_true rfl) (Nat.le_of_ble_eq_true rfl)
      · rw [if_neg c] at h
        refine r_aload_n G 0 rfl rfl dX3_read_77 ?_
        obtain ⟨o9, e9, h⟩ := ob h
        refine r_callVv G [] (qX3_refuseByte hE _ e9) ⟨72, 3, _, _, rfl, (cw_READER ad κ _), rfl⟩ gX3_read_X3_refuseByte rfl hdX3_refuseByte ⟨Nat.le_of_ble_eq_true rfl, Nat.le_of_ble_eq_true rfl⟩ (Nat.le_of_ble_eq_true rfl) rfl ⟨Nat.le_of_ble_eq_true rfl, Nat.le_of_ble_eq_true rfl⟩ rfl rfl dX3_read_78 (fun s9 hp => ?_)
        have hp := hp.symm
        subst hp
        try dsimp only at h
        exact hret _ _ _ _ _ dX3_read_81 (Option.some.inj h).symm (Nat.le_of_ble_eq_true rfl) (Nat.le_of_ble_eq_true rfl)
