abbrev rmX8_unites_c : Room := { frames := 1, cells := 0, slots := 0, locals := 24 }
set_option maxRecDepth 20000 in
theorem kX8_unites_X8 : ∀ w ∈ u_ws RX8 TX8 19, w ∈ wsX8_unites := by decide +kernel
set_option maxRecDepth 20000 in
theorem mX8_unites_f59 : Cond.fieldLink RX8 59 "SetCouncilModel" "keptMany" "I" ∈ wsX8_unites := by decide +kernel
set_option maxRecDepth 20000 in
theorem mX8_unites_f34 : Cond.fieldLink RX8 34 "SetCouncilModel" "kept" "[[Z" ∈ wsX8_unites := by decide +kernel
set_option maxHeartbeats 4000000 in
set_option maxRecDepth 100000 in
theorem wX8_unites_c_L11 {E : evT} {l : Launch} {D : va_G} {bd : Nat → Nat} {κ : Nat → ClassId} (hE : EvOk E) {Γ : cxT} (G : Cx (mW bd κ) D (tyA κ) E l Γ cX8_unites RX8 wsX8_unites 6 rmX8_unites_c) (z1 : Nat) (hz1 : z1 < 67) (x2 : Int32) (z4 : Nat) (hz4 : z4 < 67) {o : (mS)} (hret : ∀ (st2 : mS) (cells slots pc : Nat) (lv : List (Nat × Value)), decode cX8_unites pc = .ok (.return_, 1) → o = st2 → cells ≤ rmX8_unites_c.cells → slots ≤ rmX8_unites_c.slots → V (mW bd κ) D Γ st2 cells slots pc lv []) : ∀ (fuel : Nat) (x5 : Int32) (s : mS), fX8_unites_c_L11 z1 x2 z4 fuel x5 s = some o → V (mW bd κ) D Γ s 0 0 11 [(0, .ref (bd 67)), (1, .ref (bd z1)), (2, .int x2), (3, .int 0), (4, .ref (bd z4)), (5, .int x5)] [] := by
  intro fuel
  induction fuel with
  | zero =>
    intro _ _ h
    have h : none = some o := h
    cases h
  | succ fuel ih =>
    intro x5 s h
    rw [fX8_unites_c_L11] at h
    refine r_iload G 5 rfl dX8_unites_11 ?_
    refine r_aload_n G 0 rfl rfl dX8_unites_13 ?_
    refine r_get G (C := RX8) (T := TX8) (N := 19) kX8_unites_X8 67 (mw_MO bd κ _) rfl 5 (by decide) mX8_unites_f59 rfl rfl dX8_unites_14 ?_
    refine r_icmp_ge G (tgt := 74) dX8_unites_17 (by decide) (fun c => ?_) (fun c => ?_)
    · rw [if_pos c] at h
      exact hret _ _ _ _ _ dX8_unites_74 (Option.some.inj h).symm (Nat.le_of_ble_eq_true rfl) (Nat.le_of_ble_eq_true rfl)
    · rw [if_neg c] at h
      refine r_iload G 5 rfl dX8_unites_20 ?_
      refine r_iload_n G 2 rfl rfl dX8_unites_22 ?_
      refine r_icmp_eq G (tgt := 68) dX8_unites_23 (by decide) (fun c => ?_) (fun c => ?_)
      · rw [if_pos c] at h
        refine r_iinc G (j := 5) rfl (v := x5 + 1) (lv' := [(0, .ref (bd 67)), (1, .ref (bd z1)), (2, .int x2), (3, .int 0), (4, .ref (bd z4)), (5, .int (x5 + 1))]) rfl [1, 2, 3, 4, 5, 0] rfl (by decide) dX8_unites_68 ?_
        refine r_goto G (tgt := 11) dX8_unites_71 (by decide) ?_
        exact ih _ _ h
      · rw [if_neg c] at h
        refine r_aload_n G 0 rfl rfl dX8_unites_26 ?_
        refine r_get G (C := RX8) (T := TX8) (N := 19) kX8_unites_X8 67 (mw_MO bd κ _) rfl 3 (by decide) mX8_unites_f34 rfl rfl dX8_unites_27 ?_
        refine r_iload G 5 rfl dX8_unites_30 ?_
        obtain ⟨g2, h⟩ := og h
        refine r_aldA G (69 + 0) 5 (mw_GRID bd κ _ (by decide)) rfl (vin_in g2) rfl dX8_unites_32 ?_
        refine r_aload_n G 1 rfl rfl dX8_unites_33 ?_
        obtain ⟨o3, e3, h⟩ := ob h
        refine r_callSi G [.ref (bd (9 + 7 * 0 + x5.toNatClampNeg)), .ref (bd z1)] (qX8_lies hE (9 + 7 * 0 + x5.toNatClampNeg) (by have := vin_lt g2; have h2 : 0 < 2 := (by decide); omega) z1 hz1 _ e3) gX8_unites_X8_lies rfl hdX8_lies ⟨Nat.le_of_ble_eq_true rfl, Nat.le_of_ble_eq_true rfl⟩ (Nat.le_of_ble_eq_true rfl) rfl ⟨Nat.le_of_ble_eq_true rfl, Nat.le_of_ble_eq_true rfl⟩ rfl rfl dX8_unites_34 (fun r3 s3 hp hn3 => ?_)
        subst hp
        try dsimp only at h
        refine r_if_eq G (tgt := 68) dX8_unites_37 (by decide) (fun c => ?_) (fun c => ?_)
        · rw [if_pos c] at h
          refine r_iinc G (j := 5) rfl (v := x5 + 1) (lv' := [(0, .ref (bd 67)), (1, .ref (bd z1)), (2, .int x2), (3, .int 0), (4, .ref (bd z4)), (5, .int (x5 + 1))]) rfl [1, 2, 3, 4, 5, 0] rfl (by decide) dX8_unites_68 ?_
          refine r_goto G (tgt := 11) dX8_unites_71 (by decide) ?_
          exact ih _ _ h
        · rw [if_neg c] at h
          refine r_iload_n G 3 rfl rfl dX8_unites_40 ?_
          refine r_if_eq G (tgt := 53) dX8_unites_41 (by decide) (fun _ => ?_) (fun c => absurd (by decide) c)
          refine r_aload G 4 rfl dX8_unites_53 ?_
          refine r_aload_n G 0 rfl rfl dX8_unites_55 ?_
          refine r_get G (C := RX8) (T := TX8) (N := 19) kX8_unites_X8 67 (mw_MO bd κ _) rfl 3 (by decide) mX8_unites_f34 rfl rfl dX8_unites_56 ?_
          refine r_iload G 5 rfl dX8_unites_59 ?_
          obtain ⟨g4, h⟩ := og h
          refine r_aldA G (69 + 0) 5 (mw_GRID bd κ _ (by decide)) rfl (vin_in g4) rfl dX8_unites_61 ?_
          refine r_iconst G (v := 0) (by decide) dX8_unites_62 ?_
          refine r_aload G 4 rfl dX8_unites_63 ?_
          obtain ⟨o5, e5, h⟩ := ob h
          refine r_callSv G [.ref (bd z4), .ref (bd (9 + 7 * 0 + x5.toNatClampNeg)), .int 0, .ref (bd z4)] (qX8_joins hE z4 hz4 (9 + 7 * 0 + x5.toNatClampNeg) (by have := vin_lt g4; have h2 : 0 < 2 := (by decide); omega) (0 : Int32) z4 hz4 _ e5) gX8_unites_X8_joins rfl hdX8_joins ⟨Nat.le_of_ble_eq_true rfl, Nat.le_of_ble_eq_true rfl⟩ (Nat.le_of_ble_eq_true rfl) rfl ⟨Nat.le_of_ble_eq_true rfl, Nat.le_of_ble_eq_true rfl⟩ rfl rfl dX8_unites_65 (fun s5 hp => ?_)
          have hp := hp.symm
          subst hp
          try dsimp only at h
          refine r_iinc G (j := 5) rfl (v := x5 + 1) (lv' := [(0, .ref (bd 67)), (1, .ref (bd z1)), (2, .int x2), (3, .int 0), (4, .ref (bd z4)), (5, .int (x5 + 1))]) rfl [1, 2, 3, 4, 5, 0] rfl (by decide) dX8_unites_68 ?_
          refine r_goto G (tgt := 11) dX8_unites_71 (by decide) ?_
          exact ih _ _ h
set_option maxHeartbeats 4000000 in
set_option maxRecDepth 100000 in
theorem qX8_unites_c {E : evT} {l : Launch} {D : va_G} {bd : Nat → Nat} {κ : Nat → ClassId} (hE : EvOk E) (p0 : Nat) (hp0 : p0 < 67) (p1 : Int32) (p3 : Nat) (hp3 : p3 < 67) (s : mS) {o : (mS)} (h : fX8_unites_c p0 p1 p3 s = some o) : Cv l yX8_unites wsX8_unites rmX8_unites_c (mW bd κ) E D (tyA κ)  [.ref (bd 67), .ref (bd p0), .int p1, .int 0, .ref (bd p3)] s (fun s2 => o = s2) := by
  rw [fX8_unites_c] at h
  refine s_v (cc := cX8_unites) (nL := 6) (own := RX8) hE (mW_WA bd κ) (by decide) rfl rfl (Nat.le_of_ble_eq_true rfl) (fun Γ G hret => ?_)
  refine r_aload_n G 1 rfl rfl dX8_unites_0 ?_
  refine r_aload_n G 1 rfl rfl dX8_unites_1 ?_
  refine r_iconst G (v := 2) (by decide) dX8_unites_2 ?_
  refine r_aload G 4 rfl dX8_unites_3 ?_
  obtain ⟨o1, e1, h⟩ := ob h
  refine r_callSv G [.ref (bd p0), .ref (bd p0), .int 2, .ref (bd p3)] (qX8_joins hE p0 hp0 p0 hp0 (2 : Int32) p3 hp3 _ e1) gX8_unites_X8_joins rfl hdX8_joins ⟨Nat.le_of_ble_eq_true rfl, Nat.le_of_ble_eq_true rfl⟩ (Nat.le_of_ble_eq_true rfl) rfl ⟨Nat.le_of_ble_eq_true rfl, Nat.le_of_ble_eq_true rfl⟩ rfl rfl dX8_unites_5 (fun s1 hp => ?_)
  have hp := hp.symm
  subst hp
  try dsimp only at h
  refine r_iconst G (v := 0) (by decide) dX8_unites_8 ?_
  refine r_istore G (lv' := [(0, .ref (bd 67)), (1, .ref (bd p0)), (2, .int p1), (3, .int 0), (4, .ref (bd p3)), (5, .int 0)]) [1, 2, 3, 4, 5, 0] rfl (by decide) dX8_unites_9 ?_
  refine wX8_unites_c_L11 hE G _ hp0 _ _ hp3 hret 1100 _ _ h
abbrev rmX8_isPrime : Room := { frames := 2, cells := 0, slots := 0, locals := 49 }
set_option maxRecDepth 20000 in
theorem kX8_isPrime_X8 : ∀ w ∈ u_ws RX8 TX8 19, w ∈ wsX8_isPrime := by decide +kernel
set_option maxRecDepth 20000 in
theorem mX8_isPrime_f34 : Cond.fieldLink RX8 34 "SetCouncilModel" "kept" "[[Z" ∈ wsX8_isPrime := by decide +kernel
set_option maxRecDepth 20000 in
theorem mX8_isPrime_f40 : Cond.fieldLink RX8 40 "SetCouncilModel" "united" "[Z" ∈ wsX8_isPrime := by decide +kernel
theorem hdX8_unites : yX8_unites.cls = RX8 ∧ yX8_unites.cls ≠ "java/lang/invoke/MethodHandle" ∧ yX8_unites.cls ≠ "java/lang/invoke/VarHandle" ∧ (parseMethodDescriptor yX8_unites.desc).map (fun d => d.parameters.length) = some 4 := by decide +kernel
set_option maxHeartbeats 4000000 in
set_option maxRecDepth 100000 in
theorem qX8_isPrime {E : evT} {l : Launch} {D : va_G} {bd : Nat → Nat} {κ : Nat → ClassId} (hE : EvOk E) (p0 : Int32) (s : mS) {o : (Int32 × mS)} (h : fX8_isPrime p0 s = some o) : Ci l yX8_isPrime wsX8_isPrime rmX8_isPrime (mW bd κ) E D (tyA κ) .boolean [.ref (bd 67), .int p0] s (fun r s2 => o = (r, s2)) := by
  rw [fX8_isPrime] at h
  refine s_i (cc := cX8_isPrime) (nL := 2) (own := RX8) hE (mW_WA bd κ) (plainFor_of_name (by decide)) rfl rfl (Nat.le_of_ble_eq_true rfl) (fun Γ G hret => ?_)
  refine r_aload_n G 0 rfl rfl dX8_isPrime_0 ?_
  refine r_aload_n G 0 rfl rfl dX8_isPrime_1 ?_
  refine r_get G (C := RX8) (T := TX8) (N := 19) kX8_isPrime_X8 67 (mw_MO bd κ _) rfl 3 (by decide) mX8_isPrime_f34 rfl rfl dX8_isPrime_2 ?_
  refine r_iload_n G 1 rfl rfl dX8_isPrime_5 ?_
  obtain ⟨g1, h⟩ := og h
  refine r_aldA G (69 + 0) 5 (mw_GRID bd κ _ (by decide)) rfl (vin_in g1) rfl dX8_isPrime_6 ?_
  refine r_iload_n G 1 rfl rfl dX8_isPrime_7 ?_
  refine r_iconst G (v := 0) (by decide) dX8_isPrime_8 ?_
  refine r_aload_n G 0 rfl rfl dX8_isPrime_9 ?_
  refine r_get G (C := RX8) (T := TX8) (N := 19) kX8_isPrime_X8 67 (mw_MO bd κ _) rfl 7 (by decide) mX8_isPrime_f40 rfl rfl dX8_isPrime_10 ?_
  obtain ⟨o2, e2, h⟩ := ob h
  refine r_callVv G [.ref (bd (9 + 7 * 0 + p0.toNatClampNeg)), .int p0, .int 0, .ref (bd 23)] (qX8_unites_c hE (9 + 7 * 0 + p0.toNatClampNeg) (by have := vin_lt g1; have h2 : 0 < 2 := (by decide); omega) p0 23 (by decide) _ e2) ⟨67, 8, _, _, rfl, (mw_MO bd κ _), rfl⟩ gX8_isPrime_X8_unites rfl hdX8_unites ⟨Nat.le_of_ble_eq_true rfl, Nat.le_of_ble_eq_true rfl⟩ (Nat.le_of_ble_eq_true rfl) rfl ⟨Nat.le_of_ble_eq_true rfl, Nat.le_of_ble_eq_true rfl⟩ rfl rfl dX8_isPrime_13 (fun s2 hp => ?_)
  have hp := hp.symm
  subst hp
  try dsimp only at h
  refine r_aload_n G 0 rfl rfl dX8_isPrime_16 ?_
  refine r_get G (C := RX8) (T := TX8) (N := 19) kX8_isPrime_X8 67 (mw_MO bd κ _) rfl 7 (by decide) mX8_isPrime_f40 rfl rfl dX8_isPrime_17 ?_
  refine r_aload_n G 0 rfl rfl dX8_isPrime_20 ?_
  refine r_get G (C := RX8) (T := TX8) (N := 19) kX8_isPrime_X8 67 (mw_MO bd κ _) rfl 3 (by decide) mX8_isPrime_f34 rfl rfl dX8_isPrime_21 ?_
  refine r_iload_n G 1 rfl rfl dX8_isPrime_24 ?_
  obtain ⟨g3, h⟩ := og h
  refine r_aldA G (69 + 0) 5 (mw_GRID bd κ _ (by decide)) rfl (vin_in g3) rfl dX8_isPrime_25 ?_
  obtain ⟨o4, e4, h⟩ := ob h
  refine r_callSi G [.ref (bd 23), .ref (bd (9 + 7 * 0 + p0.toNatClampNeg))] (qX8_areSame hE 23 (by decide) (9 + 7 * 0 + p0.toNatClampNeg) (by have := vin_lt g3; have h2 : 0 < 2 := (by decide); omega) _ e4) gX8_isPrime_X8_areSame rfl hdX8_areSame ⟨Nat.le_of_ble_eq_true rfl, Nat.le_of_ble_eq_true rfl⟩ (Nat.le_of_ble_eq_true rfl) rfl ⟨Nat.le_of_ble_eq_true rfl, Nat.le_of_ble_eq_true rfl⟩ rfl rfl dX8_isPrime_26 (fun r4 s4 hp hn4 => ?_)
  subst hp
  try dsimp only at h
  refine r_if_ne G (tgt := 36) dX8_isPrime_29 (by decide) (fun c => ?_) (fun c => ?_)
  · rw [if_neg c] at h
    refine r_iconst G (v := 0) (by decide) dX8_isPrime_36 ?_
    exact hret _ _ _ _ _ _ dX8_isPrime_37 (Option.some.inj h).symm rfl (Nat.le_of_ble_eq_true rfl) (Nat.le_of_ble_eq_true rfl)
  · rw [if_pos c] at h
    refine r_iconst G (v := 1) (by decide) dX8_isPrime_32 ?_
    refine r_goto G (tgt := 37) dX8_isPrime_33 (by decide) ?_
    exact hret _ _ _ _ _ _ dX8_isPrime_37 (Option.some.inj h).symm rfl (Nat.le_of_ble_eq_true rfl) (Nat.le_of_ble_eq_true rfl)
abbrev rmX8_unites : Room := { frames := 3, cells := 0, slots := 0, locals := 70 }
theorem hdX8_isPrime : yX8_isPrime.cls = RX8 ∧ yX8_isPrime.cls ≠ "java/lang/invoke/MethodHandle" ∧ yX8_isPrime.cls ≠ "java/lang/invoke/VarHandle" ∧ (parseMethodDescriptor yX8_isPrime.desc).map (fun d => d.parameters.length) = some 1 := by decide +kernel
set_option maxHeartbeats 4000000 in
set_option maxRecDepth 100000 in
theorem wX8_unites_L11 {E : evT} {l : Launch} {D : va_G} {bd : Nat → Nat} {κ : Nat → ClassId} (hE : EvOk E) {Γ : cxT} (G : Cx (mW bd κ) D (tyA κ) E l Γ cX8_unites RX8 wsX8_unites 6 rmX8_unites) (z1 : Nat) (hz1 : z1 < 67) (x2 : Int32) (x3 : Int32) (z4 : Nat) (hz4 : z4 < 67) {o : (mS)} (hret : ∀ (st2 : mS) (cells slots pc : Nat) (lv : List (Nat × Value)), decode cX8_unites pc = .ok (.return_, 1) → o = st2 → cells ≤ rmX8_unites.cells → slots ≤ rmX8_unites.slots → V (mW bd κ) D Γ st2 cells slots pc lv []) : ∀ (fuel : Nat) (x5 : Int32) (s : mS), fX8_unites_L11 z1 x2 x3 z4 fuel x5 s = some o → V (mW bd κ) D Γ s 0 0 11 [(0, .ref (bd 67)), (1, .ref (bd z1)), (2, .int x2), (3, .int x3), (4, .ref (bd z4)), (5, .int x5)] [] := by
  intro fuel
  induction fuel with
  | zero =>
    intro _ _ h
    have h : none = some o := h
    cases h
  | succ fuel ih =>
    intro x5 s h
    rw [fX8_unites_L11] at h
    refine r_iload G 5 rfl dX8_unites_11 ?_
    refine r_aload_n G 0 rfl rfl dX8_unites_13 ?_
    refine r_get G (C := RX8) (T := TX8) (N := 19) kX8_unites_X8 67 (mw_MO bd κ _) rfl 5 (by decide) mX8_unites_f59 rfl rfl dX8_unites_14 ?_
    refine r_icmp_ge G (tgt := 74) dX8_unites_17 (by decide) (fun c => ?_) (fun c => ?_)
    · rw [if_pos c] at h
      exact hret _ _ _ _ _ dX8_unites_74 (Option.some.inj h).symm (Nat.le_of_ble_eq_true rfl) (Nat.le_of_ble_eq_true rfl)
    · rw [if_neg c] at h
      refine r_iload G 5 rfl dX8_unites_20 ?_
      refine r_iload_n G 2 rfl rfl dX8_unites_22 ?_
      refine r_icmp_eq G (tgt := 68) dX8_unites_23 (by decide) (fun c => ?_) (fun c => ?_)
      · rw [if_pos c] at h
        refine r_iinc G (j := 5) rfl (v := x5 + 1) (lv' := [(0, .ref (bd 67)), (1, .ref (bd z1)), (2, .int x2), (3, .int x3), (4, .ref (bd z4)), (5, .int (x5 + 1))]) rfl [1, 2, 3, 4, 5, 0] rfl (by decide) dX8_unites_68 ?_
        refine r_goto G (tgt := 11) dX8_unites_71 (by decide) ?_
        exact ih _ _ h
      · rw [if_neg c] at h
        refine r_aload_n G 0 rfl rfl dX8_unites_26 ?_
        refine r_get G (C := RX8) (T := TX8) (N := 19) kX8_unites_X8 67 (mw_MO bd κ _) rfl 3 (by decide) mX8_unites_f34 rfl rfl dX8_unites_27 ?_
        refine r_iload G 5 rfl dX8_unites_30 ?_
        obtain ⟨g2, h⟩ := og h
        refine r_aldA G (69 + 0) 5 (mw_GRID bd κ _ (by decide)) rfl (vin_in g2) rfl dX8_unites_32 ?_
        refine r_aload_n G 1 rfl rfl dX8_unites_33 ?_
        obtain ⟨o3, e3, h⟩ := ob h
        refine r_callSi G [.ref (bd (9 + 7 * 0 + x5.toNatClampNeg)), .ref (bd z1)] (qX8_lies hE (9 + 7 * 0 + x5.toNatClampNeg) (by have := vin_lt g2; have h2 : 0 < 2 := (by decide); omega) z1 hz1 _ e3) gX8_unites_X8_lies rfl hdX8_lies ⟨Nat.le_of_ble_eq_true rfl, Nat.le_of_ble_eq_true rfl⟩ (Nat.le_of_ble_eq_true rfl) rfl ⟨Nat.le_of_ble_eq_true rfl, Nat.le_of_ble_eq_true rfl⟩ rfl rfl dX8_unites_34 (fun r3 s3 hp hn3 => ?_)
        subst hp
        try dsimp only at h
        refine r_if_eq G (tgt := 68) dX8_unites_37 (by decide) (fun c => ?_) (fun c => ?_)
        · rw [if_pos c] at h
          refine r_iinc G (j := 5) rfl (v := x5 + 1) (lv' := [(0, .ref (bd 67)), (1, .ref (bd z1)), (2, .int x2), (3, .int x3), (4, .ref (bd z4)), (5, .int (x5 + 1))]) rfl [1, 2, 3, 4, 5, 0] rfl (by decide) dX8_unites_68 ?_
          refine r_goto G (tgt := 11) dX8_unites_71 (by decide) ?_
          exact ih _ _ h
        · rw [if_neg c] at h
          refine r_iload_n G 3 rfl rfl dX8_unites_40 ?_
          refine r_if_eq G (tgt := 53) dX8_unites_41 (by decide) (fun c => ?_) (fun c => ?_)
          · rw [if_pos c] at h
            refine r_aload G 4 rfl dX8_unites_53 ?_
            refine r_aload_n G 0 rfl rfl dX8_unites_55 ?_
            refine r_get G (C := RX8) (T := TX8) (N := 19) kX8_unites_X8 67 (mw_MO bd κ _) rfl 3 (by decide) mX8_unites_f34 rfl rfl dX8_unites_56 ?_
            refine r_iload G 5 rfl dX8_unites_59 ?_
            obtain ⟨g4, h⟩ := og h
            refine r_aldA G (69 + 0) 5 (mw_GRID bd κ _ (by decide)) rfl (vin_in g4) rfl dX8_unites_61 ?_
            refine r_iconst G (v := 0) (by decide) dX8_unites_62 ?_
            refine r_aload G 4 rfl dX8_unites_63 ?_
            obtain ⟨o5, e5, h⟩ := ob h
            refine r_callSv G [.ref (bd z4), .ref (bd (9 + 7 * 0 + x5.toNatClampNeg)), .int 0, .ref (bd z4)] (qX8_joins hE z4 hz4 (9 + 7 * 0 + x5.toNatClampNeg) (by have := vin_lt g4; have h2 : 0 < 2 := (by decide); omega) (0 : Int32) z4 hz4 _ e5) gX8_unites_X8_joins rfl hdX8_joins ⟨Nat.le_of_ble_eq_true rfl, Nat.le_of_ble_eq_true rfl⟩ (Nat.le_of_ble_eq_true rfl) rfl ⟨Nat.le_of_ble_eq_true rfl, Nat.le_of_ble_eq_true rfl⟩ rfl rfl dX8_unites_65 (fun s5 hp => ?_)
            have hp := hp.symm
            subst hp
            try dsimp only at h
            refine r_iinc G (j := 5) rfl (v := x5 + 1) (lv' := [(0, .ref (bd 67)), (1, .ref (bd z1)), (2, .int x2), (3, .int x3), (4, .ref (bd z4)), (5, .int (x5 + 1))]) rfl [1, 2, 3, 4, 5, 0] rfl (by decide) dX8_unites_68 ?_
            refine r_goto G (tgt := 11) dX8_unites_71 (by decide) ?_
            exact ih _ _ h
          · rw [if_neg c] at h
            refine r_aload_n G 0 rfl rfl dX8_unites_44 ?_
            refine r_iload G 5 rfl dX8_unites_45 ?_
            obtain ⟨o6, e6, h⟩ := ob h
            refine r_callVi G [.int x5] (qX8_isPrime hE x5 _ e6) ⟨67, 8, _, _, rfl, (mw_MO bd κ _), rfl⟩ gX8_unites_X8_isPrime rfl hdX8_isPrime ⟨Nat.le_of_ble_eq_true rfl, Nat.le_of_ble_eq_true rfl⟩ (Nat.le_of_ble_eq_true rfl) rfl ⟨Nat.le_of_ble_eq_true rfl, Nat.le_of_ble_eq_true rfl⟩ rfl rfl dX8_unites_47 (fun r6 s6 hp hn6 => ?_)
            subst hp
            try dsimp only at h
            refine r_if_eq G (tgt := 68) dX8_unites_50 (by decide) (fun c => ?_) (fun c => ?_)
            · rw [if_pos c] at h
              refine r_iinc G (j := 5) rfl (v := x5 + 1) (lv' := [(0, .ref (bd 67)), (1, .ref (bd z1)), (2, .int x2), (3, .int x3), (4, .ref (bd z4)), (5, .int (x5 + 1))]) rfl [1, 2, 3, 4, 5, 0] rfl (by decide) dX8_unites_68 ?_
              refine r_goto G (tgt := 11) dX8_unites_71 (by decide) ?_
              exact ih _ _ h
            · rw [if_neg c] at h
              refine r_aload G 4 rfl dX8_unites_53 ?_
              refine r_aload_n G 0 rfl rfl dX8_unites_55 ?_
              refine r_get G (C := RX8) (T := TX8) (N := 19) kX8_unites_X8 67 (mw_MO bd κ _) rfl 3 (by decide) mX8_unites_f34 rfl rfl dX8_unites_56 ?_
              refine r_iload G 5 rfl dX8_unites_59 ?_
              obtain ⟨g7, h⟩ := og h
              refine r_aldA G (69 + 0) 5 (mw_GRID bd κ _ (by decide)) rfl (vin_in g7) rfl dX8_unites_61 ?_
              refine r_iconst G (v := 0) (by decide) dX8_unites_62 ?_
              refine r_aload G 4 rfl dX8_unites_63 ?_
              obtain ⟨o8, e8, h⟩ := ob h
              refine r_callSv G [.ref (bd z4), .ref (bd (9 + 7 * 0 + x5.toNatClampNeg)), .int 0, .ref (bd z4)] (qX8_joins hE z4 hz4 (9 + 7 * 0 + x5.toNatClampNeg) (by have := vin_lt g7; have h2 : 0 < 2 := (by decide); omega) (0 : Int32) z4 hz4 _ e8) gX8_unites_X8_joins rfl hdX8_joins ⟨Nat.le_of_ble_eq_true rfl, Nat.le_of_ble_eq_true rfl⟩ (Nat.le_of_ble_eq_true rfl) rfl ⟨Nat.le_of_ble_eq_true rfl, Nat.le_of_ble_eq_true rfl⟩ rfl rfl dX8_unites_65 (fun s8 hp => ?_)
              have hp := hp.symm
              subst hp
              try dsimp only at h
              refine r_iinc G (j := 5) rfl (v := x5 + 1) (lv' := [(0, .ref (bd 67)), (1, .ref (bd z1)), (2, .int x2), (3, .int x3), (4, .ref (bd z4)), (5, .int (x5 + 1))]) rfl [1, 2, 3, 4, 5, 0] rfl (by decide) dX8_unites_68 ?_
              refine r_goto G (tgt := 11) dX8_unites_71 (by decide) ?_
              exact ih _ _ h
set_option maxHeartbeats 4000000 in
set_option maxRecDepth 100000 in
theorem qX8_unites {E : evT} {l : Launch} {D : va_G} {bd : Nat → Nat} {κ : Nat → ClassId} (hE : EvOk E) (p0 : Nat) (hp0 : p0 < 67) (p1 : Int32) (p2 : Int32) (p3 : Nat) (hp3 : p3 < 67) (s : mS) {o : (mS)} (h : fX8_unites p0 p1 p2 p3 s = some o) : Cv l yX8_unites wsX8_unites rmX8_unites (mW bd κ) E D (tyA κ)  [.ref (bd 67), .ref (bd p0), .int p1, .int p2, .ref (bd p3)] s (fun s2 => o = s2) := by
  rw [fX8_unites] at h
  refine s_v (cc := cX8_unites) (nL := 6) (own := RX8) hE (mW_WA bd κ) (by decide) rfl rfl (Nat.le_of_ble_eq_true rfl) (fun Γ G hret => ?_)
  refine r_aload_n G 1 rfl rfl dX8_unites_0 ?_
  refine r_aload_n G 1 rfl rfl dX8_unites_1 ?_
  refine r_iconst G (v := 2) (by decide) dX8_unites_2 ?_
  refine r_aload G 4 rfl dX8_unites_3 ?_
  obtain ⟨o1, e1, h⟩ := ob h
  refine r_callSv G [.ref (bd p0), .ref (bd p0), .int 2, .ref (bd p3)] (qX8_joins hE p0 hp0 p0 hp0 (2 : Int32) p3 hp3 _ e1) gX8_unites_X8_joins rfl hdX8_joins ⟨Nat.le_of_ble_eq_true rfl, Nat.le_of_ble_eq_true rfl⟩ (Nat.le_of_ble_eq_true rfl) rfl ⟨Nat.le_of_ble_eq_true rfl, Nat.le_of_ble_eq_true rfl⟩ rfl rfl dX8_unites_5 (fun s1 hp => ?_)
  have hp := hp.symm
  subst hp
  try dsimp only at h
  refine r_iconst G (v := 0) (by decide) dX8_unites_8 ?_
  refine r_istore G (lv' := [(0, .ref (bd 67)), (1, .ref (bd p0)), (2, .int p1), (3, .int p2), (4, .ref (bd p3)), (5, .int 0)]) [1, 2, 3, 4, 5, 0] rfl (by decide) dX8_unites_9 ?_
  refine wX8_unites_L11 hE G _ hp0 _ _ _ hp3 hret 1100 _ _ h
abbrev rmX8_sums (d : Nat) : Room := { frames := 10 + 3 * d, cells := 0, slots := 0, locals := 200 + 62 * d }
abbrev rmX8_factor (d : Nat) : Room := { frames := 11 + 3 * d, cells := 0, slots := 0, locals := 221 + 62 * d }
abbrev rmX8_part (d : Nat) : Room := { frames := 12 + 3 * d, cells := 0, slots := 0, locals := 242 + 62 * d }
set_option maxRecDepth 20000 in
theorem kX8_factor_X8 : ∀ w ∈ u_ws RX8 TX8 19, w ∈ wsX8_factor := by decide +kernel
set_option maxRecDepth 20000 in
theorem mX8_factor_f170 : Cond.fieldLink RX8 170 "SetCouncilModel" "at" "I" ∈ wsX8_factor := by decide +kernel
set_option maxRecDepth 20000 in
theorem mX8_factor_f206 : Cond.fieldLink RX8 206 "SetCouncilModel" "open" "I" ∈ wsX8_factor := by decide +kernel
theorem hdX8_sums : yX8_sums.cls = RX8 ∧ yX8_sums.cls ≠ "java/lang/invoke/MethodHandle" ∧ yX8_sums.cls ≠ "java/lang/invoke/VarHandle" ∧ (parseMethodDescriptor yX8_sums.desc).map (fun d => d.parameters.length) = some 0 := by decide +kernel
set_option maxRecDepth 20000 in
theorem mX8_factor_f164 : Cond.fieldLink RX8 164 "SetCouncilModel" "errorKind" "I" ∈ wsX8_factor := by decide +kernel
set_option maxRecDepth 20000 in
theorem mX8_factor_f47 : Cond.fieldLink RX8 47 "SetCouncilModel" "pile" "[[Z" ∈ wsX8_factor := by decide +kernel
set_option maxRecDepth 20000 in
theorem mX8_factor_f200 : Cond.fieldLink RX8 200 "SetCouncilModel" "high" "I" ∈ wsX8_factor := by decide +kernel
theorem hdX8_braces : yX8_braces.cls = RX8 ∧ yX8_braces.cls ≠ "java/lang/invoke/MethodHandle" ∧ yX8_braces.cls ≠ "java/lang/invoke/VarHandle" ∧ (parseMethodDescriptor yX8_braces.desc).map (fun d => d.parameters.length) = some 1 := by decide +kernel
set_option maxRecDepth 20000 in
theorem mX8_factor_f27 : Cond.fieldLink RX8 27 "SetCouncilModel" "sets" "[[Z" ∈ wsX8_factor := by decide +kernel
set_option maxHeartbeats 4000000 in
set_option maxRecDepth 100000 in
theorem qX8_factor {E : evT} {l : Launch} {D : va_G} {bd : Nat → Nat} {κ : Nat → ClassId} (hE : EvOk E) (d : Nat) (S : mS → Option mS) (hS : ∀ (s : mS) (o : mS), S s = some o → Cv l yX8_sums wsX8_sums (rmX8_sums d) (mW bd κ) E D (tyA κ) [.ref (bd 67)] s (fun s2 => o = s2)) (s : mS) {o : (mS)} (h : fX8_factor S s = some o) : Cv l yX8_factor wsX8_factor (rmX8_factor d) (mW bd κ) E D (tyA κ)  [.ref (bd 67)] s (fun s2 => o = s2) := by
  rw [fX8_factor] at h
  refine s_v (cc := cX8_factor) (nL := 2) (own := RX8) hE (mW_WA bd κ) (by decide) rfl rfl (Nat.le_of_ble_eq_true rfl) (fun Γ G hret => ?_)
  refine r_aload_n G 0 rfl rfl dX8_factor_0 ?_
  obtain ⟨o1, e1, h⟩ := ob h
  refine r_callVi G [] (qX8_signBehindBlanks hE _ e1) ⟨67, 8, _, _, rfl, (mw_MO bd κ _), rfl⟩ gX8_factor_X8_signBehindBlanks rfl hdX8_signBehindBlanks ⟨(by first | exact Nat.le_of_ble_eq_true rfl | (dsimp only [rmX8_sums, rmX8_part, rmX8_factor]; omega)), (by first | exact Nat.le_of_ble_eq_true rfl | (dsimp only [rmX8_sums, rmX8_part, rmX8_factor]; omega))⟩ (Nat.le_of_ble_eq_true rfl) rfl ⟨(by first | exact Nat.le_of_ble_eq_true rfl | (dsimp only [rmX8_sums, rmX8_part, rmX8_factor]; omega)), (by first | exact Nat.le_of_ble_eq_true rfl | (dsimp only [rmX8_sums, rmX8_part, rmX8_factor]; omega))⟩ rfl rfl dX8_factor_1 (fun r1 s1 hp hn1 => ?_)
  subst hp
  try dsimp only at h
  refine r_istore_n G (lv' := [(0, .ref (bd 67)), (1, .int r1)]) [1, 0] rfl rfl (by decide) dX8_factor_4 ?_
  refine r_iload_n G 1 rfl rfl dX8_factor_5 ?_
  refine r_bipush G (v := 97) (by decide) dX8_factor_6 ?_
  refine r_bipush G (v := 104) (by decide) dX8_factor_8 ?_
  refine r_callSi G [.int r1, .int 97, .int 104] (qX8_in hE r1 (97 : Int32) (104 : Int32) _) gX8_factor_X8_in rfl hdX8_in ⟨(by first | exact Nat.le_of_ble_eq_true rfl | (dsimp only [rmX8_sums, rmX8_part, rmX8_factor]; omega)), (by first | exact Nat.le_of_ble_eq_true rfl | (dsimp only [rmX8_sums, rmX8_part, rmX8_factor]; omega))⟩ (Nat.le_of_ble_eq_true rfl) rfl ⟨(by first | exact Nat.le_of_ble_eq_true rfl | (dsimp only [rmX8_sums, rmX8_part, rmX8_factor]; omega)), (by first | exact Nat.le_of_ble_eq_true rfl | (dsimp only [rmX8_sums, rmX8_part, rmX8_factor]; omega))⟩ rfl rfl dX8_factor_10 (fun r2 s2 hp hn2 => ?_)
  obtain ⟨rfl, hs⟩ := hp
  have hs := hs.symm
  subst hs
  refine r_if_eq G (tgt := 60) dX8_factor_13 (by decide) (fun c => ?_) (fun c => ?_)
  · rw [if_pos c] at h
    refine r_iload_n G 1 rfl rfl dX8_factor_60 ?_
    refine r_bipush G (v := 123) (by decide) dX8_factor_61 ?_
    refine r_icmp_ne G (tgt := 92) dX8_factor_63 (by decide) (fun c => ?_) (fun c => ?_)
    · rw [if_neg c] at h
      refine r_iload_n G 1 rfl rfl dX8_factor_92 ?_
      refine r_bipush G (v := 40) (by decide) dX8_factor_93 ?_
      refine r_icmp_ne G (tgt := 157) dX8_factor_95 (by decide) (fun c => ?_) (fun c => ?_)
      · rw [if_neg c] at h
        refine r_aload_n G 0 rfl rfl dX8_factor_157 ?_
        refine r_iload_n G 1 rfl rfl dX8_factor_158 ?_
        refine r_bipush G (v := 40) (by decide) dX8_factor_159 ?_
        refine r_icmp_ne G (tgt := 168) dX8_factor_161 (by decide) (fun c => ?_) (fun c => ?_)
        · rw [if_neg c] at h
          refine r_iconst G (v := 1) (by decide) dX8_factor_168 ?_
          refine r_aload_n G 0 rfl rfl dX8_factor_169 ?_
          refine r_get G (C := RX8) (T := TX8) (N := 19) kX8_factor_X8 67 (mw_MO bd κ _) rfl 12 (by decide) mX8_factor_f170 rfl rfl dX8_factor_170 ?_
          obtain ⟨o3, e3, h⟩ := ob h
          refine r_callVv G [.int 1, .int (mI s1 5)] (qX8_fails hE (1 : Int32) (mI s1 5) _ e3) ⟨67, 8, _, _, rfl, (mw_MO bd κ _), rfl⟩ gX8_factor_X8_fails rfl hdX8_fails ⟨(by first | exact Nat.le_of_ble_eq_true rfl | (dsimp only [rmX8_sums, rmX8_part, rmX8_factor]; omega)), (by first | exact Nat.le_of_ble_eq_true rfl | (dsimp only [rmX8_sums, rmX8_part, rmX8_factor]; omega))⟩ (Nat.le_of_ble_eq_true rfl) rfl ⟨(by first | exact Nat.le_of_ble_eq_true rfl | (dsimp only [rmX8_sums, rmX8_part, rmX8_factor]; omega)), (by first | exact Nat.le_of_ble_eq_true rfl | (dsimp only [rmX8_sums, rmX8_part, rmX8_factor]; omega))⟩ rfl rfl dX8_factor_173 (fun s3 hp => ?_)
          have hp := hp.symm
          subst hp
          try dsimp only at h
          exact hret _ _ _ _ _ dX8_factor_176 (Option.some.inj h).symm (Nat.le_of_ble_eq_true rfl) (Nat.le_of_ble_eq_true rfl)
        · rw [if_pos c] at h
          refine r_iconst G (v := 2) (by decide) dX8_factor_164 ?_
          refine r_goto G (tgt := 169) dX8_factor_165 (by decide) ?_
          refine r_aload_n G 0 rfl rfl dX8_factor_169 ?_
          refine r_get G (C := RX8) (T := TX8) (N := 19) kX8_factor_X8 67 (mw_MO bd κ _) rfl 12 (by decide) mX8_factor_f170 rfl rfl dX8_factor_170 ?_
          obtain ⟨o4, e4, h⟩ := ob h
          refine r_callVv G [.int 2, .int (mI s1 5)] (qX8_fails hE (2 : Int32) (mI s1 5) _ e4) ⟨67, 8, _, _, rfl, (mw_MO bd κ _), rfl⟩ gX8_factor_X8_fails rfl hdX8_fails ⟨(by first | exact Nat.le_of_ble_eq_true rfl | (dsimp only [rmX8_sums, rmX8_part, rmX8_factor]; omega)), (by first | exact Nat.le_of_ble_eq_true rfl | (dsimp only [rmX8_sums, rmX8_part, rmX8_factor]; omega))⟩ (Nat.le_of_ble_eq_true rfl) rfl ⟨(by first | exact Nat.le_of_ble_eq_true rfl | (dsimp only [rmX8_sums, rmX8_part, rmX8_factor]; omega)), (by first | exact Nat.le_of_ble_eq_true rfl | (dsimp only [rmX8_sums, rmX8_part, rmX8_factor]; omega))⟩ rfl rfl dX8_factor_173 (fun s4 hp => ?_)
          have hp := hp.symm
          subst hp
          try dsimp only at h
          exact hret _ _ _ _ _ dX8_factor_176 (Option.some.inj h).symm (Nat.le_of_ble_eq_true rfl) (Nat.le_of_ble_eq_true rfl)
      · rw [if_pos c] at h
        refine r_aload_n G 0 rfl rfl dX8_factor_98 ?_
        refine r_get G (C := RX8) (T := TX8) (N := 19) kX8_factor_X8 67 (mw_MO bd κ _) rfl 13 (by decide) mX8_factor_f206 rfl rfl dX8_factor_99 ?_
        refine r_bipush G (v := 8) (by decide) dX8_factor_102 ?_
        refine r_icmp_ge G (tgt := 157) dX8_factor_104 (by decide) (fun c => ?_) (fun c => ?_)
        · rw [if_pos c] at h
          refine r_aload_n G 0 rfl rfl dX8_factor_157 ?_
          refine r_iload_n G 1 rfl rfl dX8_factor_158 ?_
          refine r_bipush G (v := 40) (by decide) dX8_factor_159 ?_
          refine r_icmp_ne G (tgt := 168) dX8_factor_161 (by decide) (fun c => ?_) (fun c => ?_)
          · rw [if_neg c] at h
            refine r_iconst G (v := 1) (by decide) dX8_factor_168 ?_
            refine r_aload_n G 0 rfl rfl dX8_factor_169 ?_
            refine r_get G (C := RX8) (T := TX8) (N := 19) kX8_factor_X8 67 (mw_MO bd κ _) rfl 12 (by decide) mX8_factor_f170 rfl rfl dX8_factor_170 ?_
            obtain ⟨o5, e5, h⟩ := ob h
            refine r_callVv G [.int 1, .int (mI s1 5)] (qX8_fails hE (1 : Int32) (mI s1 5) _ e5) ⟨67, 8, _, _, rfl, (mw_MO bd κ _), rfl⟩ gX8_factor_X8_fails rfl hdX8_fails ⟨(by first | exact Nat.le_of_ble_eq_true rfl | (dsimp only [rmX8_sums, rmX8_part, rmX8_factor]; omega)), (by first | exact Nat.le_of_ble_eq_true rfl | (dsimp only [rmX8_sums, rmX8_part, rmX8_factor]; omega))⟩ (Nat.le_of_ble_eq_true rfl) rfl ⟨(by first | exact Nat.le_of_ble_eq_true rfl | (dsimp only [rmX8_sums, rmX8_part, rmX8_factor]; omega)), (by first | exact Nat.le_of_ble_eq_true rfl | (dsimp only [rmX8_sums, rmX8_part, rmX8_factor]; omega))⟩ rfl rfl dX8_factor_173 (fun s5 hp => ?_)
            have hp := hp.symm
            subst hp
            try dsimp only at h
            exact hret _ _ _ _ _ dX8_factor_176 (Option.some.inj h).symm (Nat.le_of_ble_eq_true rfl) (Nat.le_of_ble_eq_true rfl)
          · rw [if_pos c] at h
            refine r_iconst G (v := 2) (by decide) dX8_factor_164 ?_
            refine r_goto G (tgt := 169) dX8_factor_165 (by decide) ?_
            refine r_aload_n G 0 rfl rfl dX8_factor_169 ?_
            refine r_get G (C := RX8) (T := TX8) (N := 19) kX8_factor_X8 67 (mw_MO bd κ _) rfl 12 (by decide) mX8_factor_f170 rfl rfl dX8_factor_170 ?_
            obtain ⟨o6, e6, h⟩ := ob h
            refine r_callVv G [.int 2, .int (mI s1 5)] (qX8_fails hE (2 : Int32) (mI s1 5) _ e6) ⟨67, 8, _, _, rfl, (mw_MO bd κ _), rfl⟩ gX8_factor_X8_fails rfl hdX8_fails ⟨(by first | exact Nat.le_of_ble_eq_true rfl | (dsimp only [rmX8_sums, rmX8_part, rmX8_factor]; omega)), (by first | exact Nat.le_of_ble_eq_true rfl | (dsimp only [rmX8_sums, rmX8_part, rmX8_factor]; omega))⟩ (Nat.le_of_ble_eq_true rfl) rfl ⟨(by first | exact Nat.le_of_ble_eq_true rfl | (dsimp only [rmX8_sums, rmX8_part, rmX8_factor]; omega)), (by first | exact Nat.le_of_ble_eq_true rfl | (dsimp only [rmX8_sums, rmX8_part, rmX8_factor]; omega))⟩ rfl rfl dX8_factor_173 (fun s6 hp => ?_)
            have hp := hp.symm
            subst hp
            try dsimp only at h
            exact hret _ _ _ _ _ dX8_factor_176 (Option.some.inj h).symm (Nat.le_of_ble_eq_true rfl) (Nat.le_of_ble_eq_true rfl)
        · rw [if_neg c] at h
          refine r_aload_n G 0 rfl rfl dX8_factor_107 ?_
          refine r_dup G rfl dX8_factor_108 ?_
          refine r_get G (C := RX8) (T := TX8) (N := 19) kX8_factor_X8 67 (mw_MO bd κ _) rfl 13 (by decide) mX8_factor_f206 rfl rfl dX8_factor_109 ?_
          refine r_iconst G (v := 1) (by decide) dX8_factor_112 ?_
          refine r_iadd G dX8_factor_113 ?_
          refine r_put G (C := RX8) (T := TX8) (N := 19) kX8_factor_X8 tyX8 tyX8_ok nmX8 67 (mw_MO bd κ _) rfl 13 (by decide) mX8_factor_f206 rfl rfl (tyX8_ok 13 (by decide)) rfl rfl (Nat.le_of_ble_eq_true rfl) (mu_open bd κ _ _) dX8_factor_114 ?_
          refine r_aload_n G 0 rfl rfl dX8_factor_117 ?_
          refine r_dup G rfl dX8_factor_118 ?_
          refine r_get G (C := RX8) (T := TX8) (N := 19) kX8_factor_X8 67 (mw_MO bd κ _) rfl 12 (by decide) mX8_factor_f170 rfl rfl dX8_factor_119 ?_
          refine r_iconst G (v := 1) (by decide) dX8_factor_122 ?_
          refine r_iadd G dX8_factor_123 ?_
          refine r_put G (C := RX8) (T := TX8) (N := 19) kX8_factor_X8 tyX8 tyX8_ok nmX8 67 (mw_MO bd κ _) rfl 12 (by decide) mX8_factor_f170 rfl rfl (tyX8_ok 12 (by decide)) rfl rfl (Nat.le_of_ble_eq_true rfl) (mu_at bd κ _ _) dX8_factor_124 ?_
          refine r_aload_n G 0 rfl rfl dX8_factor_127 ?_
          obtain ⟨o7, e7, h⟩ := ob h
          refine r_callVv G [] (hS _ _ e7) ⟨67, 8, _, _, rfl, (mw_MO bd κ _), rfl⟩ gX8_factor_X8_sums rfl hdX8_sums ⟨(by first | exact Nat.le_of_ble_eq_true rfl | (dsimp only [rmX8_sums, rmX8_part, rmX8_factor]; omega)), (by first | exact Nat.le_of_ble_eq_true rfl | (dsimp only [rmX8_sums, rmX8_part, rmX8_factor]; omega))⟩ (Nat.le_of_ble_eq_true rfl) rfl ⟨(by first | exact Nat.le_of_ble_eq_true rfl | (dsimp only [rmX8_sums, rmX8_part, rmX8_factor]; omega)), (by first | exact Nat.le_of_ble_eq_true rfl | (dsimp only [rmX8_sums, rmX8_part, rmX8_factor]; omega))⟩ rfl rfl dX8_factor_128 (fun s7 hp => ?_)
          have hp := hp.symm
          subst hp
          try dsimp only at h
          refine r_aload_n G 0 rfl rfl dX8_factor_131 ?_
          refine r_get G (C := RX8) (T := TX8) (N := 19) kX8_factor_X8 67 (mw_MO bd κ _) rfl 14 (by decide) mX8_factor_f164 rfl rfl dX8_factor_132 ?_
          refine r_if_ne G (tgt := 144) dX8_factor_135 (by decide) (fun c => ?_) (fun c => ?_)
          · rw [if_neg c] at h
            refine r_aload_n G 0 rfl rfl dX8_factor_144 ?_
            refine r_dup G rfl dX8_factor_145 ?_
            refine r_get G (C := RX8) (T := TX8) (N := 19) kX8_factor_X8 67 (mw_MO bd κ _) rfl 13 (by decide) mX8_factor_f206 rfl rfl dX8_factor_146 ?_
            refine r_iconst G (v := 1) (by decide) dX8_factor_149 ?_
            refine r_isub G dX8_factor_150 ?_
            refine r_put G (C := RX8) (T := TX8) (N := 19) kX8_factor_X8 tyX8 tyX8_ok nmX8 67 (mw_MO bd κ _) rfl 13 (by decide) mX8_factor_f206 rfl rfl (tyX8_ok 13 (by decide)) rfl rfl (Nat.le_of_ble_eq_true rfl) (mu_open bd κ _ _) dX8_factor_151 ?_
            refine r_goto G (tgt := 176) dX8_factor_154 (by decide) ?_
            exact hret _ _ _ _ _ dX8_factor_176 (Option.some.inj h).symm (Nat.le_of_ble_eq_true rfl) (Nat.le_of_ble_eq_true rfl)
          · rw [if_pos c] at h
            refine r_aload_n G 0 rfl rfl dX8_factor_138 ?_
            refine r_bipush G (v := 41) (by decide) dX8_factor_139 ?_
            obtain ⟨o8, e8, h⟩ := ob h
            refine r_callVv G [.int 41] (qX8_expects hE (41 : Int32) _ e8) ⟨67, 8, _, _, rfl, (mw_MO bd κ _), rfl⟩ gX8_factor_X8_expects rfl hdX8_expects ⟨(by first | exact Nat.le_of_ble_eq_true rfl | (dsimp only [rmX8_sums, rmX8_part, rmX8_factor]; omega)), (by first | exact Nat.le_of_ble_eq_true rfl | (dsimp only [rmX8_sums, rmX8_part, rmX8_factor]; omega))⟩ (Nat.le_of_ble_eq_true rfl) rfl ⟨(by first | exact Nat.le_of_ble_eq_true rfl | (dsimp only [rmX8_sums, rmX8_part, rmX8_factor]; omega)), (by first | exact Nat.le_of_ble_eq_true rfl | (dsimp only [rmX8_sums, rmX8_part, rmX8_factor]; omega))⟩ rfl rfl dX8_factor_141 (fun s8 hp => ?_)
            have hp := hp.symm
            subst hp
            try dsimp only at h
            refine r_aload_n G 0 rfl rfl dX8_factor_144 ?_
            refine r_dup G rfl dX8_factor_145 ?_
            refine r_get G (C := RX8) (T := TX8) (N := 19) kX8_factor_X8 67 (mw_MO bd κ _) rfl 13 (by decide) mX8_factor_f206 rfl rfl dX8_factor_146 ?_
            refine r_iconst G (v := 1) (by decide) dX8_factor_149 ?_
            refine r_isub G dX8_factor_150 ?_
            refine r_put G (C := RX8) (T := TX8) (N := 19) kX8_factor_X8 tyX8 tyX8_ok nmX8 67 (mw_MO bd κ _) rfl 13 (by decide) mX8_factor_f206 rfl rfl (tyX8_ok 13 (by decide)) rfl rfl (Nat.le_of_ble_eq_true rfl) (mu_open bd κ _ _) dX8_factor_151 ?_
            refine r_goto G (tgt := 176) dX8_factor_154 (by decide) ?_
            exact hret _ _ _ _ _ dX8_factor_176 (Option.some.inj h).symm (Nat.le_of_ble_eq_true rfl) (Nat.le_of_ble_eq_true rfl)
    · rw [if_pos c] at h
      refine r_aload_n G 0 rfl rfl dX8_factor_66 ?_
      refine r_aload_n G 0 rfl rfl dX8_factor_67 ?_
      refine r_get G (C := RX8) (T := TX8) (N := 19) kX8_factor_X8 67 (mw_MO bd κ _) rfl 10 (by decide) mX8_factor_f47 rfl rfl dX8_factor_68 ?_
      refine r_aload_n G 0 rfl rfl dX8_factor_71 ?_
      refine r_get G (C := RX8) (T := TX8) (N := 19) kX8_factor_X8 67 (mw_MO bd κ _) rfl 11 (by decide) mX8_factor_f200 rfl rfl dX8_factor_72 ?_
      obtain ⟨g9, h⟩ := og h
      refine r_aldA G 71 5 (mw_PILEG bd κ _) rfl (vin_in g9) rfl dX8_factor_75 ?_
      obtain ⟨o10, e10, h⟩ := ob h
      refine r_callVv G [.ref (bd (24 + (mI s1 4).toNatClampNeg))] (qX8_braces hE (24 + (mI s1 4).toNatClampNeg) (by have := vin_lt g9; omega) _ e10) ⟨67, 8, _, _, rfl, (mw_MO bd κ _), rfl⟩ gX8_factor_X8_braces rfl hdX8_braces ⟨(by first | exact Nat.le_of_ble_eq_true rfl | (dsimp only [rmX8_sums, rmX8_part, rmX8_factor]; omega)), (by first | exact Nat.le_of_ble_eq_true rfl | (dsimp only [rmX8_sums, rmX8_part, rmX8_factor]; omega))⟩ (Nat.le_of_ble_eq_true rfl) rfl ⟨(by first | exact Nat.le_of_ble_eq_true rfl | (dsimp only [rmX8_sums, rmX8_part, rmX8_factor]; omega)), (by first | exact Nat.le_of_ble_eq_true rfl | (dsimp only [rmX8_sums, rmX8_part, rmX8_factor]; omega))⟩ rfl rfl dX8_factor_76 (fun s10 hp => ?_)
      have hp := hp.symm
      subst hp
      try dsimp only at h
      refine r_aload_n G 0 rfl rfl dX8_factor_79 ?_
      refine r_dup G rfl dX8_factor_80 ?_
      refine r_get G (C := RX8) (T := TX8) (N := 19) kX8_factor_X8 67 (mw_MO bd κ _) rfl 11 (by decide) mX8_factor_f200 rfl rfl dX8_factor_81 ?_
      refine r_iconst G (v := 1) (by decide) dX8_factor_84 ?_
      refine r_iadd G dX8_factor_85 ?_
      refine r_put G (C := RX8) (T := TX8) (N := 19) kX8_factor_X8 tyX8 tyX8_ok nmX8 67 (mw_MO bd κ _) rfl 11 (by decide) mX8_factor_f200 rfl rfl (tyX8_ok 11 (by decide)) rfl rfl (Nat.le_of_ble_eq_true rfl) (mu_high bd κ _ _) dX8_factor_86 ?_
      refine r_goto G (tgt := 176) dX8_factor_89 (by decide) ?_
      exact hret _ _ _ _ _ dX8_factor_176 (Option.some.inj h).symm (Nat.le_of_ble_eq_true rfl) (Nat.le_of_ble_eq_true rfl)
  · rw [if_neg c] at h
    refine r_aload_n G 0 rfl rfl dX8_factor_16 ?_
    refine r_get G (C := RX8) (T := TX8) (N := 19) kX8_factor_X8 67 (mw_MO bd κ _) rfl 1 (by decide) mX8_factor_f27 rfl rfl dX8_factor_17 ?_
    refine r_iload_n G 1 rfl rfl dX8_factor_20 ?_
    refine r_bipush G (v := 97) (by decide) dX8_factor_21 ?_
    refine r_isub G dX8_factor_23 ?_
    obtain ⟨g11, h⟩ := og h
    refine r_aldA G 68 5 (mw_SETSG bd κ _) rfl (vin_in g11) rfl dX8_factor_24 ?_
    refine r_aload_n G 0 rfl rfl dX8_factor_25 ?_
    refine r_get G (C := RX8) (T := TX8) (N := 19) kX8_factor_X8 67 (mw_MO bd κ _) rfl 10 (by decide) mX8_factor_f47 rfl rfl dX8_factor_26 ?_
    refine r_aload_n G 0 rfl rfl dX8_factor_29 ?_
    refine r_get G (C := RX8) (T := TX8) (N := 19) kX8_factor_X8 67 (mw_MO bd κ _) rfl 11 (by decide) mX8_factor_f200 rfl rfl dX8_factor_30 ?_
    obtain ⟨g12, h⟩ := og h
    refine r_aldA G 71 5 (mw_PILEG bd κ _) rfl (vin_in g12) rfl dX8_factor_33 ?_
    obtain ⟨o13, e13, h⟩ := ob h
    refine r_callSv G [.ref (bd ((r1 - 97).toNatClampNeg)), .ref (bd (24 + (mI s1 4).toNatClampNeg))] (qX8_copies hE ((r1 - 97).toNatClampNeg) (by have := vin_lt g11; omega) (24 + (mI s1 4).toNatClampNeg) (by have := vin_lt g12; omega) _ e13) gX8_factor_X8_copies rfl hdX8_copies ⟨(by first | exact Nat.le_of_ble_eq_true rfl | (dsimp only [rmX8_sums, rmX8_part, rmX8_factor]; omega)), (by first | exact Nat.le_of_ble_eq_true rfl | (dsimp only [rmX8_sums, rmX8_part, rmX8_factor]; omega))⟩ (Nat.le_of_ble_eq_true rfl) rfl ⟨(by first | exact Nat.le_of_ble_eq_true rfl | (dsimp only [rmX8_sums, rmX8_part, rmX8_factor]; omega)), (by first | exact Nat.le_of_ble_eq_true rfl | (dsimp only [rmX8_sums, rmX8_part, rmX8_factor]; omega))⟩ rfl rfl dX8_factor_34 (fun s13 hp => ?_)
    have hp := hp.symm
    subst hp
    try dsimp only at h
    refine r_aload_n G 0 rfl rfl dX8_factor_37 ?_
    refine r_dup G rfl dX8_factor_38 ?_
    refine r_get G (C := RX8) (T := TX8) (N := 19) kX8_factor_X8 67 (mw_MO bd κ _) rfl 11 (by decide) mX8_factor_f200 rfl rfl dX8_factor_39 ?_
    refine r_iconst G (v := 1) (by decide) dX8_factor_42 ?_
    refine r_iadd G dX8_factor_43 ?_
    refine r_put G (C := RX8) (T := TX8) (N := 19) kX8_factor_X8 tyX8 tyX8_ok nmX8 67 (mw_MO bd κ _) rfl 11 (by decide) mX8_factor_f200 rfl rfl (tyX8_ok 11 (by decide)) rfl rfl (Nat.le_of_ble_eq_true rfl) (mu_high bd κ _ _) dX8_factor_44 ?_
    refine r_aload_n G 0 rfl rfl dX8_factor_47 ?_
    refine r_dup G rfl dX8_factor_48 ?_
    refine r_get G (C := RX8) (T := TX8) (N := 19) kX8_factor_X8 67 (mw_MO bd κ _) rfl 12 (by decide) mX8_factor_f170 rfl rfl dX8_factor_49 ?_
    refine r_iconst G (v := 1) (by decide) dX8_factor_52 ?_
    refine r_iadd G dX8_factor_53 ?_
    refine r_put G (C := RX8) (T := TX8) (N := 19) kX8_factor_X8 tyX8 tyX8_ok nmX8 67 (mw_MO bd κ _) rfl 12 (by decide) mX8_factor_f170 rfl rfl (tyX8_ok 12 (by decide)) rfl rfl (Nat.le_of_ble_eq_true rfl) (mu_at bd κ _ _) dX8_factor_54 ?_
    refine r_goto G (tgt := 176) dX8_factor_57 (by decide) ?_
    exact hret _ _ _ _ _ dX8_factor_176 (Option.some.inj h).symm (Nat.le_of_ble_eq_true rfl) (Nat.le_of_ble_eq_true rfl)
theorem hdX8_factor : yX8_factor.cls = RX8 ∧ yX8_factor.cls ≠ "java/lang/invoke/MethodHandle" ∧ yX8_factor.cls ≠ "java/lang/invoke/VarHandle" ∧ (parseMethodDescriptor yX8_factor.desc).map (fun d => d.parameters.length) = some 0 := by decide +kernel
set_option maxRecDepth 20000 in
theorem kX8_part_X8 : ∀ w ∈ u_ws RX8 TX8 19, w ∈ wsX8_part := by decide +kernel
set_option maxRecDepth 20000 in
theorem mX8_part_f164 : Cond.fieldLink RX8 164 "SetCouncilModel" "errorKind" "I" ∈ wsX8_part := by decide +kernel
set_option maxRecDepth 20000 in
theorem mX8_part_f170 : Cond.fieldLink RX8 170 "SetCouncilModel" "at" "I" ∈ wsX8_part := by decide +kernel
theorem hdX8_joinsHighest : yX8_joinsHighest.cls = RX8 ∧ yX8_joinsHighest.cls ≠ "java/lang/invoke/MethodHandle" ∧ yX8_joinsHighest.cls ≠ "java/lang/invoke/VarHandle" ∧ (parseMethodDescriptor yX8_joinsHighest.desc).map (fun d => d.parameters.length) = some 1 := by decide +kernel
set_option maxHeartbeats 4000000 in
set_option maxRecDepth 100000 in
theorem wX8_part_L4 {E : evT} {l : Launch} {D : va_G} {bd : Nat → Nat} {κ : Nat → ClassId} (hE : EvOk E) (d : Nat) (S : mS → Option mS) (hS : ∀ (s : mS) (o : mS), S s = some o → Cv l yX8_factor wsX8_factor (rmX8_factor d) (mW bd κ) E D (tyA κ) [.ref (bd 67)] s (fun s2 => o = s2)) {Γ : cxT} (G : Cx (mW bd κ) D (tyA κ) E l Γ cX8_part RX8 wsX8_part 1 (rmX8_part d)) {o : (mS)} (hret : ∀ (st2 : mS) (cells slots pc : Nat) (lv : List (Nat × Value)), decode cX8_part pc = .ok (.return_, 1) → o = st2 → cells ≤ (rmX8_part d).cells → slots ≤ (rmX8_part d).slots → V (mW bd κ) D Γ st2 cells slots pc lv []) : ∀ (fuel : Nat) (s : mS), fX8_part_L4 S fuel s = some o → V (mW bd κ) D Γ s 0 0 4 [(0, .ref (bd 67))] [] := by
  intro fuel
  induction fuel with
  | zero =>
    intro _ h
    have h : none = some o := h
    cases h
  | succ fuel ih =>
    intro s h
    rw [fX8_part_L4] at h
    refine r_aload_n G 0 rfl rfl dX8_part_4 ?_
    refine r_get G (C := RX8) (T := TX8) (N := 19) kX8_part_X8 67 (mw_MO bd κ _) rfl 14 (by decide) mX8_part_f164 rfl rfl dX8_part_5 ?_
    refine r_if_ne G (tgt := 42) dX8_part_8 (by decide) (fun c => ?_) (fun c => ?_)
    · rw [if_neg c] at h
      exact hret _ _ _ _ _ dX8_part_42 (Option.some.inj h).symm (Nat.le_of_ble_eq_true rfl) (Nat.le_of_ble_eq_true rfl)
    · rw [if_pos c] at h
      refine r_aload_n G 0 rfl rfl dX8_part_11 ?_
      obtain ⟨o2, e2, h⟩ := ob h
      refine r_callVi G [] (qX8_signBehindBlanks hE _ e2) ⟨67, 8, _, _, rfl, (mw_MO bd κ _), rfl⟩ gX8_part_X8_signBehindBlanks rfl hdX8_signBehindBlanks ⟨(by first | exact Nat.le_of_ble_eq_true rfl | (dsimp only [rmX8_sums, rmX8_part, rmX8_factor]; omega)), (by first | exact Nat.le_of_ble_eq_true rfl | (dsimp only [rmX8_sums, rmX8_part, rmX8_factor]; omega))⟩ (Nat.le_of_ble_eq_true rfl) rfl ⟨(by first | exact Nat.le_of_ble_eq_true rfl | (dsimp only [rmX8_sums, rmX8_part, rmX8_factor]; omega)), (by first | exact Nat.le_of_ble_eq_true rfl | (dsimp only [rmX8_sums, rmX8_part, rmX8_factor]; omega))⟩ rfl rfl dX8_part_12 (fun r2 s2 hp hn2 => ?_)
      subst hp
      try dsimp only at h
      refine r_bipush G (v := 38) (by decide) dX8_part_15 ?_
      refine r_icmp_ne G (tgt := 42) dX8_part_17 (by decide) (fun c => ?_) (fun c => ?_)
      · rw [if_neg c] at h
        exact hret _ _ _ _ _ dX8_part_42 (Option.some.inj h).symm (Nat.le_of_ble_eq_true rfl) (Nat.le_of_ble_eq_true rfl)
      · rw [if_pos c] at h
        refine r_aload_n G 0 rfl rfl dX8_part_20 ?_
        refine r_dup G rfl dX8_part_21 ?_
        refine r_get G (C := RX8) (T := TX8) (N := 19) kX8_part_X8 67 (mw_MO bd κ _) rfl 12 (by decide) mX8_part_f170 rfl rfl dX8_part_22 ?_
        refine r_iconst G (v := 1) (by decide) dX8_part_25 ?_
        refine r_iadd G dX8_part_26 ?_
        refine r_put G (C := RX8) (T := TX8) (N := 19) kX8_part_X8 tyX8 tyX8_ok nmX8 67 (mw_MO bd κ _) rfl 12 (by decide) mX8_part_f170 rfl rfl (tyX8_ok 12 (by decide)) rfl rfl (Nat.le_of_ble_eq_true rfl) (mu_at bd κ _ _) dX8_part_27 ?_
        refine r_aload_n G 0 rfl rfl dX8_part_30 ?_
        obtain ⟨o3, e3, h⟩ := ob h
        refine r_callVv G [] (hS _ _ e3) ⟨67, 8, _, _, rfl, (mw_MO bd κ _), rfl⟩ gX8_part_X8_factor rfl hdX8_factor ⟨(by first | exact Nat.le_of_ble_eq_true rfl | (dsimp only [rmX8_sums, rmX8_part, rmX8_factor]; omega)), (by first | exact Nat.le_of_ble_eq_true rfl | (dsimp only [rmX8_sums, rmX8_part, rmX8_factor]; omega))⟩ (Nat.le_of_ble_eq_true rfl) rfl ⟨(by first | exact Nat.le_of_ble_eq_true rfl | (dsimp only [rmX8_sums, rmX8_part, rmX8_factor]; omega)), (by first | exact Nat.le_of_ble_eq_true rfl | (dsimp only [rmX8_sums, rmX8_part, rmX8_factor]; omega))⟩ rfl rfl dX8_part_31 (fun s3 hp => ?_)
        have hp := hp.symm
        subst hp
        try dsimp only at h
        refine r_aload_n G 0 rfl rfl dX8_part_34 ?_
        refine r_iconst G (v := 1) (by decide) dX8_part_35 ?_
        obtain ⟨o4, e4, h⟩ := ob h
        refine r_callVv G [.int 1] (qX8_joinsHighest hE (1 : Int32) _ e4) ⟨67, 8, _, _, rfl, (mw_MO bd κ _), rfl⟩ gX8_part_X8_joinsHighest rfl hdX8_joinsHighest ⟨(by first | exact Nat.le_of_ble_eq_true rfl | (dsimp only [rmX8_sums, rmX8_part, rmX8_factor]; omega)), (by first | exact Nat.le_of_ble_eq_true rfl | (dsimp only [rmX8_sums, rmX8_part, rmX8_factor]; omega))⟩ (Nat.le_of_ble_eq_true rfl) rfl ⟨(by first | exact Nat.le_of_ble_eq_true rfl | (dsimp only [rmX8_sums, rmX8_part, rmX8_factor]; omega)), (by first | exact Nat.le_of_ble_eq_true rfl | (dsimp only [rmX8_sums, rmX8_part, rmX8_factor]; omega))⟩ rfl rfl dX8_part_36 (fun s4 hp => ?_)
        have hp := hp.symm
        subst hp
        try dsimp only at h
        refine r_goto G (tgt := 4) dX8_part_39 (by decide) ?_
        exact ih _ h
set_option maxHeartbeats 4000000 in
set_option maxRecDepth 100000 in
theorem qX8_part {E : evT} {l : Launch} {D : va_G} {bd : Nat → Nat} {κ : Nat → ClassId} (hE : EvOk E) (d : Nat) (S : mS → Option mS) (hS : ∀ (s : mS) (o : mS), S s = some o → Cv l yX8_factor wsX8_factor (rmX8_factor d) (mW bd κ) E D (tyA κ) [.ref (bd 67)] s (fun s2 => o = s2)) (s : mS) {o : (mS)} (h : fX8_part S s = some o) : Cv l yX8_part wsX8_part (rmX8_part d) (mW bd κ) E D (tyA κ)  [.ref (bd 67)] s (fun s2 => o = s2) := by
  rw [fX8_part] at h
  refine s_v (cc := cX8_part) (nL := 1) (own := RX8) hE (mW_WA bd κ) (by decide) rfl rfl (Nat.le_of_ble_eq_true rfl) (fun Γ G hret => ?_)
  refine r_aload_n G 0 rfl rfl dX8_part_0 ?_
  obtain ⟨o1, e1, h⟩ := ob h
  refine r_callVv G [] (hS _ _ e1) ⟨67, 8, _, _, rfl, (mw_MO bd κ _), rfl⟩ gX8_part_X8_factor rfl hdX8_factor ⟨(by first | exact Nat.le_of_ble_eq_true rfl | (dsimp only [rmX8_sums, rmX8_part, rmX8_factor]; omega)), (by first | exact Nat.le_of_ble_eq_true rfl | (dsimp only [rmX8_sums, rmX8_part, rmX8_factor]; omega))⟩ (Nat.le_of_ble_eq_true rfl) rfl ⟨(by first | exact Nat.le_of_ble_eq_true rfl | (dsimp only [rmX8_sums, rmX8_part, rmX8_factor]; omega)), (by first | exact Nat.le_of_ble_eq_true rfl | (dsimp only [rmX8_sums, rmX8_part, rmX8_factor]; omega))⟩ rfl rfl dX8_part_1 (fun s1 hp => ?_)
  have hp := hp.symm
  subst hp
  try dsimp only at h
  refine wX8_part_L4 hE d S hS G hret 1100 _ h
theorem hdX8_part : yX8_part.cls = RX8 ∧ yX8_part.cls ≠ "java/lang/invoke/MethodHandle" ∧ yX8_part.cls ≠ "java/lang/invoke/VarHandle" ∧ (parseMethodDescriptor yX8_part.desc).map (fun d => d.parameters.length) = some 0 := by decide +kernel
set_option maxRecDepth 20000 in
theorem kX8_sums_X8 : ∀ w ∈ u_ws RX8 TX8 19, w ∈ wsX8_sums := by decide +kernel
set_option maxRecDepth 20000 in
theorem mX8_sums_f164 : Cond.fieldLink RX8 164 "SetCouncilModel" "errorKind" "I" ∈ wsX8_sums := by decide +kernel
set_option maxRecDepth 20000 in
theorem mX8_sums_f170 : Cond.fieldLink RX8 170 "SetCouncilModel" "at" "I" ∈ wsX8_sums := by decide +kernel
set_option maxHeartbeats 4000000 in
set_option maxRecDepth 100000 in
theorem wX8_sums_L9 {E : evT} {l : Launch} {D : va_G} {bd : Nat → Nat} {κ : Nat → ClassId} (hE : EvOk E) (d : Nat) (S : mS → Option mS) (hS : ∀ (s : mS) (o : mS), S s = some o → Cv l yX8_part wsX8_part (rmX8_part d) (mW bd κ) E D (tyA κ) [.ref (bd 67)] s (fun s2 => o = s2)) {Γ : cxT} (G : Cx (mW bd κ) D (tyA κ) E l Γ cX8_sums RX8 wsX8_sums 2 (rmX8_sums (d + 1))) {o : (mS)} (hret : ∀ (st2 : mS) (cells slots pc : Nat) (lv : List (Nat × Value)), decode cX8_sums pc = .ok (.return_, 1) → o = st2 → cells ≤ (rmX8_sums (d + 1)).cells → slots ≤ (rmX8_sums (d + 1)).slots → V (mW bd κ) D Γ st2 cells slots pc lv []) : ∀ (fuel : Nat) (x1 : Int32) (s : mS), fX8_sums_L9 S fuel x1 s = some o → V (mW bd κ) D Γ s 0 0 9 [(0, .ref (bd 67)), (1, .int x1)] [] := by
  intro fuel
  induction fuel with
  | zero =>
    intro _ _ h
    have h : none = some o := h
    cases h
  | succ fuel ih =>
    intro x1 s h
    rw [fX8_sums_L9] at h
    refine r_aload_n G 0 rfl rfl dX8_sums_9 ?_
    refine r_get G (C := RX8) (T := TX8) (N := 19) kX8_sums_X8 67 (mw_MO bd κ _) rfl 14 (by decide) mX8_sums_f164 rfl rfl dX8_sums_10 ?_
    refine r_if_ne G (tgt := 81) dX8_sums_13 (by decide) (fun c => ?_) (fun c => ?_)
    · rw [if_neg c] at h
      exact hret _ _ _ _ _ dX8_sums_81 (Option.some.inj h).symm (Nat.le_of_ble_eq_true rfl) (Nat.le_of_ble_eq_true rfl)
    · rw [if_pos c] at h
      refine r_iload_n G 1 rfl rfl dX8_sums_16 ?_
      refine r_bipush G (v := 124) (by decide) dX8_sums_17 ?_
      refine r_icmp_eq G (tgt := 34) dX8_sums_19 (by decide) (fun c => ?_) (fun c => ?_)
      · rw [if_pos c] at h
        refine r_aload_n G 0 rfl rfl dX8_sums_34 ?_
        refine r_dup G rfl dX8_sums_35 ?_
        refine r_get G (C := RX8) (T := TX8) (N := 19) kX8_sums_X8 67 (mw_MO bd κ _) rfl 12 (by decide) mX8_sums_f170 rfl rfl dX8_sums_36 ?_
        refine r_iconst G (v := 1) (by decide) dX8_sums_39 ?_
        refine r_iadd G dX8_sums_40 ?_
        refine r_put G (C := RX8) (T := TX8) (N := 19) kX8_sums_X8 tyX8 tyX8_ok nmX8 67 (mw_MO bd κ _) rfl 12 (by decide) mX8_sums_f170 rfl rfl (tyX8_ok 12 (by decide)) rfl rfl (Nat.le_of_ble_eq_true rfl) (mu_at bd κ _ _) dX8_sums_41 ?_
        refine r_aload_n G 0 rfl rfl dX8_sums_44 ?_
        obtain ⟨o3, e3, h⟩ := ob h
        refine r_callVv G [] (hS _ _ e3) ⟨67, 8, _, _, rfl, (mw_MO bd κ _), rfl⟩ gX8_sums_X8_part rfl hdX8_part ⟨(by first | exact Nat.le_of_ble_eq_true rfl | (dsimp only [rmX8_sums, rmX8_part, rmX8_factor]; omega)), (by first | exact Nat.le_of_ble_eq_true rfl | (dsimp only [rmX8_sums, rmX8_part, rmX8_factor]; omega))⟩ (Nat.le_of_ble_eq_true rfl) rfl ⟨(by first | exact Nat.le_of_ble_eq_true rfl | (dsimp only [rmX8_sums, rmX8_part, rmX8_factor]; omega)), (by first | exact Nat.le_of_ble_eq_true rfl | (dsimp only [rmX8_sums, rmX8_part, rmX8_factor]; omega))⟩ rfl rfl dX8_sums_45 (fun s3 hp => ?_)
        have hp := hp.symm
        subst hp
        try dsimp only at h
        refine r_aload_n G 0 rfl rfl dX8_sums_48 ?_
        refine r_iload_n G 1 rfl rfl dX8_sums_49 ?_
        refine r_bipush G (v := 124) (by decide) dX8_sums_50 ?_
        refine r_icmp_ne G (tgt := 59) dX8_sums_52 (by decide) (fun c => ?_) (fun c => ?_)
        · rw [if_neg c] at h
          refine r_iload_n G 1 rfl rfl dX8_sums_59 ?_
          refine r_bipush G (v := 45) (by decide) dX8_sums_60 ?_
          refine r_icmp_ne G (tgt := 69) dX8_sums_62 (by decide) (fun c => ?_) (fun c => ?_)
          · rw [if_neg c] at h
            refine r_iconst G (v := 3) (by decide) dX8_sums_69 ?_
            obtain ⟨o4, e4, h⟩ := ob h
            refine r_callVv G [.int 3] (qX8_joinsHighest hE (3 : Int32) _ e4) ⟨67, 8, _, _, rfl, (mw_MO bd κ _), rfl⟩ gX8_sums_X8_joinsHighest rfl hdX8_joinsHighest ⟨(by first | exact Nat.le_of_ble_eq_true rfl | (dsimp only [rmX8_sums, rmX8_part, rmX8_factor]; omega)), (by first | exact Nat.le_of_ble_eq_true rfl | (dsimp only [rmX8_sums, rmX8_part, rmX8_factor]; omega))⟩ (Nat.le_of_ble_eq_true rfl) rfl ⟨(by first | exact Nat.le_of_ble_eq_true rfl | (dsimp only [rmX8_sums, rmX8_part, rmX8_factor]; omega)), (by first | exact Nat.le_of_ble_eq_true rfl | (dsimp only [rmX8_sums, rmX8_part, rmX8_factor]; omega))⟩ rfl rfl dX8_sums_70 (fun s4 hp => ?_)
            have hp := hp.symm
            subst hp
            try dsimp only at h
            refine r_aload_n G 0 rfl rfl dX8_sums_73 ?_
            obtain ⟨o5, e5, h⟩ := ob h
            refine r_callVi G [] (qX8_signBehindBlanks hE _ e5) ⟨67, 8, _, _, rfl, (mw_MO bd κ _), rfl⟩ gX8_sums_X8_signBehindBlanks rfl hdX8_signBehindBlanks ⟨(by first | exact Nat.le_of_ble_eq_true rfl | (dsimp only [rmX8_sums, rmX8_part, rmX8_factor]; omega)), (by first | exact Nat.le_of_ble_eq_true rfl | (dsimp only [rmX8_sums, rmX8_part, rmX8_factor]; omega))⟩ (Nat.le_of_ble_eq_true rfl) rfl ⟨(by first | exact Nat.le_of_ble_eq_true rfl | (dsimp only [rmX8_sums, rmX8_part, rmX8_factor]; omega)), (by first | exact Nat.le_of_ble_eq_true rfl | (dsimp only [rmX8_sums, rmX8_part, rmX8_factor]; omega))⟩ rfl rfl dX8_sums_74 (fun r5 s5 hp hn5 => ?_)
            subst hp
            try dsimp only at h
            refine r_istore_n G (lv' := [(0, .ref (bd 67)), (1, .int r5)]) [1, 0] rfl rfl (by decide) dX8_sums_77 ?_
            refine r_goto G (tgt := 9) dX8_sums_78 (by decide) ?_
            exact ih _ _ h
          · rw [if_pos c] at h
            refine r_iconst G (v := 2) (by decide) dX8_sums_65 ?_
            refine r_goto G (tgt := 70) dX8_sums_66 (by decide) ?_
            obtain ⟨o6, e6, h⟩ := ob h
            refine r_callVv G [.int 2] (qX8_joinsHighest hE (2 : Int32) _ e6) ⟨67, 8, _, _, rfl, (mw_MO bd κ _), rfl⟩ gX8_sums_X8_joinsHighest rfl hdX8_joinsHighest ⟨(by first | exact Nat.le_of_ble_eq_true rfl | (dsimp only [rmX8_sums, rmX8_part, rmX8_factor]; omega)), (by first | exact Nat.le_of_ble_eq_true rfl | (dsimp only [rmX8_sums, rmX8_part, rmX8_factor]; omega))⟩ (Nat.le_of_ble_eq_true rfl) rfl ⟨(by first | exact Nat.le_of_ble_eq_true rfl | (dsimp only [rmX8_sums, rmX8_part, rmX8_factor]; omega)), (by first | exact Nat.le_of_ble_eq_true rfl | (dsimp only [rmX8_sums, rmX8_part, rmX8_factor]; omega))⟩ rfl rfl dX8_sums_70 (fun s6 hp => ?_)
            have hp := hp.symm
            subst hp
            try dsimp only at h
            refine r_aload_n G 0 rfl rfl dX8_sums_73 ?_
            obtain ⟨o7, e7, h⟩ := ob h
            refine r_callVi G [] (qX8_signBehindBlanks hE _ e7) ⟨67, 8, _, _, rfl, (mw_MO bd κ _), rfl⟩ gX8_sums_X8_signBehindBlanks rfl hdX8_signBehindBlanks ⟨(by first | exact Nat.le_of_ble_eq_true rfl | (dsimp only [rmX8_sums, rmX8_part, rmX8_factor]; omega)), (by first | exact Nat.le_of_ble_eq_true rfl | (dsimp only [rmX8_sums, rmX8_part, rmX8_factor]; omega))⟩ (Nat.le_of_ble_eq_true rfl) rfl ⟨(by first | exact Nat.le_of_ble_eq_true rfl | (dsimp only [rmX8_sums, rmX8_part, rmX8_factor]; omega)), (by first | exact Nat.le_of_ble_eq_true rfl | (dsimp only [rmX8_sums, rmX8_part, rmX8_factor]; omega))⟩ rfl rfl dX8_sums_74 (fun r7 s7 hp hn7 => ?_)
            subst hp
            try dsimp only at h
            refine r_istore_n G (lv' := [(0, .ref (bd 67)), (1, .int r7)]) [1, 0] rfl rfl (by decide) dX8_sums_77 ?_
            refine r_goto G (tgt := 9) dX8_sums_78 (by decide) ?_
            exact ih _ _ h
        · rw [if_pos c] at h
          refine r_iconst G (v := 0) (by decide) dX8_sums_55 ?_
          refine r_goto G (tgt := 70) dX8_sums_56 (by decide) ?_
          obtain ⟨o8, e8, h⟩ := ob h
          refine r_callVv G [.int 0] (qX8_joinsHighest hE (0 : Int32) _ e8) ⟨67, 8, _, _, rfl, (mw_MO bd κ _), rfl⟩ gX8_sums_X8_joinsHighest rfl hdX8_joinsHighest ⟨(by first | exact Nat.le_of_ble_eq_true rfl | (dsimp only [rmX8_sums, rmX8_part, rmX8_factor]; omega)), (by first | exact Nat.le_of_ble_eq_true rfl | (dsimp only [rmX8_sums, rmX8_part, rmX8_factor]; omega))⟩ (Nat.le_of_ble_eq_true rfl) rfl ⟨(by first | exact Nat.le_of_ble_eq_true rfl | (dsimp only [rmX8_sums, rmX8_part, rmX8_factor]; omega)), (by first | exact Nat.le_of_ble_eq_true rfl | (dsimp only [rmX8_sums, rmX8_part, rmX8_factor]; omega))⟩ rfl rfl dX8_sums_70 (fun s8 hp => ?_)
          have hp := hp.symm
          subst hp
          try dsimp only at h
          refine r_aload_n G 0 rfl rfl dX8_sums_73 ?_
          obtain ⟨o9, e9, h⟩ := ob h
          refine r_callVi G [] (qX8_signBehindBlanks hE _ e9) ⟨67, 8, _, _, rfl, (mw_MO bd κ _), rfl⟩ gX8_sums_X8_signBehindBlanks rfl hdX8_signBehindBlanks ⟨(by first | exact Nat.le_of_ble_eq_true rfl | (dsimp only [rmX8_sums, rmX8_part, rmX8_factor]; omega)), (by first | exact Nat.le_of_ble_eq_true rfl | (dsimp only [rmX8_sums, rmX8_part, rmX8_factor]; omega))⟩ (Nat.le_of_ble_eq_true rfl) rfl ⟨(by first | exact Nat.le_of_ble_eq_true rfl | (dsimp only [rmX8_sums, rmX8_part, rmX8_factor]; omega)), (by first | exact Nat.le_of_ble_eq_true rfl | (dsimp only [rmX8_sums, rmX8_part, rmX8_factor]; omega))⟩ rfl rfl dX8_sums_74 (fun r9 s9 hp hn9 => ?_)
          subst hp
          try dsimp only at h
          refine r_istore_n G (lv' := [(0, .ref (bd 67)), (1, .int r9)]) [1, 0] rfl rfl (by decide) dX8_sums_77 ?_
          refine r_goto G (tgt := 9) dX8_sums_78 (by decide) ?_
          exact ih _ _ h
      · rw [if_neg c] at h
        refine r_iload_n G 1 rfl rfl dX8_sums_22 ?_
        refine r_bipush G (v := 45) (by decide) dX8_sums_23 ?_
        refine r_icmp_eq G (tgt := 34) dX8_sums_25 (by decide) (fun c => ?_) (fun c => ?_)
        · rw [if_pos c] at h
          refine r_aload_n G 0 rfl rfl dX8_sums_34 ?_
          refine r_dup G rfl dX8_sums_35 ?_
          refine r_get G (C := RX8) (T := TX8) (N := 19) kX8_sums_X8 67 (mw_MO bd κ _) rfl 12 (by decide) mX8_sums_f170 rfl rfl dX8_sums_36 ?_
          refine r_iconst G (v := 1) (by decide) dX8_sums_39 ?_
          refine r_iadd G dX8_sums_40 ?_
          refine r_put G (C := RX8) (T := TX8) (N := 19) kX8_sums_X8 tyX8 tyX8_ok nmX8 67 (mw_MO bd κ _) rfl 12 (by decide) mX8_sums_f170 rfl rfl (tyX8_ok 12 (by decide)) rfl rfl (Nat.le_of_ble_eq_true rfl) (mu_at bd κ _ _) dX8_sums_41 ?_
          refine r_aload_n G 0 rfl rfl dX8_sums_44 ?_
          obtain ⟨o10, e10, h⟩ := ob h
          refine r_callVv G [] (hS _ _ e10) ⟨67, 8, _, _, rfl, (mw_MO bd κ _), rfl⟩ gX8_sums_X8_part rfl hdX8_part ⟨(by first | exact Nat.le_of_ble_eq_true rfl | (dsimp only [rmX8_sums, rmX8_part, rmX8_factor]; omega)), (by first | exact Nat.le_of_ble_eq_true rfl | (dsimp only [rmX8_sums, rmX8_part, rmX8_factor]; omega))⟩ (Nat.le_of_ble_eq_true rfl) rfl ⟨(by first | exact Nat.le_of_ble_eq_true rfl | (dsimp only [rmX8_sums, rmX8_part, rmX8_factor]; omega)), (by first | exact Nat.le_of_ble_eq_true rfl | (dsimp only [rmX8_sums, rmX8_part, rmX8_factor]; omega))⟩ rfl rfl dX8_sums_45 (fun s10 hp => ?_)
          have hp := hp.symm
          subst hp
          try dsimp only at h
          refine r_aload_n G 0 rfl rfl dX8_sums_48 ?_
          refine r_iload_n G 1 rfl rfl dX8_sums_49 ?_
          refine r_bipush G (v := 124) (by decide) dX8_sums_50 ?_
          refine r_icmp_ne G (tgt := 59) dX8_sums_52 (by decide) (fun c => ?_) (fun c => ?_)
          · rw [if_neg c] at h
            refine r_iload_n G 1 rfl rfl dX8_sums_59 ?_
            refine r_bipush G (v := 45) (by decide) dX8_sums_60 ?_
            refine r_icmp_ne G (tgt := 69) dX8_sums_62 (by decide) (fun c => ?_) (fun c => ?_)
            · rw [if_neg c] at h
              refine r_iconst G (v := 3) (by decide) dX8_sums_69 ?_
              obtain ⟨o11, e11, h⟩ := ob h
              refine r_callVv G [.int 3] (qX8_joinsHighest hE (3 : Int32) _ e11) ⟨67, 8, _, _, rfl, (mw_MO bd κ _), rfl⟩ gX8_sums_X8_joinsHighest rfl hdX8_joinsHighest ⟨(by first | exact Nat.le_of_ble_eq_true rfl | (dsimp only [rmX8_sums, rmX8_part, rmX8_factor]; omega)), (by first | exact Nat.le_of_ble_eq_true rfl | (dsimp only [rmX8_sums, rmX8_part, rmX8_factor]; omega))⟩ (Nat.le_of_ble_eq_true rfl) rfl ⟨(by first | exact Nat.le_of_ble_eq_true rfl | (dsimp only [rmX8_sums, rmX8_part, rmX8_factor]; omega)), (by first | exact Nat.le_of_ble_eq_true rfl | (dsimp only [rmX8_sums, rmX8_part, rmX8_factor]; omega))⟩ rfl rfl dX8_sums_70 (fun s11 hp => ?_)
              have hp := hp.symm
              subst hp
              try dsimp only at h
              refine r_aload_n G 0 rfl rfl dX8_sums_73 ?_
              obtain ⟨o12, e12, h⟩ := ob h
              refine r_callVi G [] (qX8_signBehindBlanks hE _ e12) ⟨67, 8, _, _, rfl, (mw_MO bd κ _), rfl⟩ gX8_sums_X8_signBehindBlanks rfl hdX8_signBehindBlanks ⟨(by first | exact Nat.le_of_ble_eq_true rfl | (dsimp only [rmX8_sums, rmX8_part, rmX8_factor]; omega)), (by first | exact Nat.le_of_ble_eq_true rfl | (dsimp only [rmX8_sums, rmX8_part, rmX8_factor]; omega))⟩ (Nat.le_of_ble_eq_true rfl) rfl ⟨(by first | exact Nat.le_of_ble_eq_true rfl | (dsimp only [rmX8_sums, rmX8_part, rmX8_factor]; omega)), (by first | exact Nat.le_of_ble_eq_true rfl | (dsimp only [rmX8_sums, rmX8_part, rmX8_factor]; omega))⟩ rfl rfl dX8_sums_74 (fun r12 s12 hp hn12 => ?_)
              subst hp
              try dsimp only at h
              refine r_istore_n G (lv' := [(0, .ref (bd 67)), (1, .int r12)]) [1, 0] rfl rfl (by decide) dX8_sums_77 ?_
              refine r_goto G (tgt := 9) dX8_sums_78 (by decide) ?_
              exact ih _ _ h
            · rw [if_pos c] at h
              refine r_iconst G (v := 2) (by decide) dX8_sums_65 ?_
              refine r_goto G (tgt := 70) dX8_sums_66 (by decide) ?_
              obtain ⟨o13, e13, h⟩ := ob h
              refine r_callVv G [.int 2] (qX8_joinsHighest hE (2 : Int32) _ e13) ⟨67, 8, _, _, rfl, (mw_MO bd κ _), rfl⟩ gX8_sums_X8_joinsHighest rfl hdX8_joinsHighest ⟨(by first | exact Nat.le_of_ble_eq_true rfl | (dsimp only [rmX8_sums, rmX8_part, rmX8_factor]; omega)), (by first | exact Nat.le_of_ble_eq_true rfl | (dsimp only [rmX8_sums, rmX8_part, rmX8_factor]; omega))⟩ (Nat.le_of_ble_eq_true rfl) rfl ⟨(by first | exact Nat.le_of_ble_eq_true rfl | (dsimp only [rmX8_sums, rmX8_part, rmX8_factor]; omega)), (by first | exact Nat.le_of_ble_eq_true rfl | (dsimp only [rmX8_sums, rmX8_part, rmX8_factor]; omega))⟩ rfl rfl dX8_sums_70 (fun s13 hp => ?_)
              have hp := hp.symm
              subst hp
              try dsimp only at h
              refine r_aload_n G 0 rfl rfl dX8_sums_73 ?_
              obtain ⟨o14, e14, h⟩ := ob h
              refine r_callVi G [] (qX8_signBehindBlanks hE _ e14) ⟨67, 8, _, _, rfl, (mw_MO bd κ _), rfl⟩ gX8_sums_X8_signBehindBlanks rfl hdX8_signBehindBlanks ⟨(by first | exact Nat.le_of_ble_eq_true rfl | (dsimp only [rmX8_sums, rmX8_part, rmX8_factor]; omega)), (by first | exact Nat.le_of_ble_eq_true rfl | (dsimp only [rmX8_sums, rmX8_part, rmX8_factor]; omega))⟩ (Nat.le_of_ble_eq_true rfl) rfl ⟨(by first | exact Nat.le_of_ble_eq_true rfl | (dsimp only [rmX8_sums, rmX8_part, rmX8_factor]; omega)), (by first | exact Nat.le_of_ble_eq_true rfl | (dsimp only [rmX8_sums, rmX8_part, rmX8_factor]; omega))⟩ rfl rfl dX8_sums_74 (fun r14 s14 hp hn14 => ?_)
              subst hp
              try dsimp only at h
              refine r_istore_n G (lv' := [(0, .ref (bd 67)), (1, .int r14)]) [1, 0] rfl rfl (by decide) dX8_sums_77 ?_
              refine r_goto G (tgt := 9) dX8_sums_78 (by decide) ?_
              exact ih _ _ h
          · rw [if_pos c] at h
            refine r_iconst G (v := 0) (by decide) dX8_sums_55 ?_
            refine r_goto G (tgt := 70) dX8_sums_56 (by decide) ?_
            obtain ⟨o15, e15, h⟩ := ob h
            refine r_callVv G [.int 0] (qX8_joinsHighest hE (0 : Int32) _ e15) ⟨67, 8, _, _, rfl, (mw_MO bd κ _), rfl⟩ gX8_sums_X8_joinsHighest rfl hdX8_joinsHighest ⟨(by first | exact Nat.le_of_ble_eq_true rfl | (dsimp only [rmX8_sums, rmX8_part, rmX8_factor]; omega)), (by first | exact Nat.le_of_ble_eq_true rfl | (dsimp only [rmX8_sums, rmX8_part, rmX8_factor]; omega))⟩ (Nat.le_of_ble_eq_true rfl) rfl ⟨(by first | exact Nat.le_of_ble_eq_true rfl | (dsimp only [rmX8_sums, rmX8_part, rmX8_factor]; omega)), (by first | exact Nat.le_of_ble_eq_true rfl | (dsimp only [rmX8_sums, rmX8_part, rmX8_factor]; omega))⟩ rfl rfl dX8_sums_70 (fun s15 hp => ?_)
            have hp := hp.symm
            subst hp
            try dsimp only at h
            refine r_aload_n G 0 rfl rfl dX8_sums_73 ?_
            obtain ⟨o16, e16, h⟩ := ob h
            refine r_callVi G [] (qX8_signBehindBlanks hE _ e16) ⟨67, 8, _, _, rfl, (mw_MO bd κ _), rfl⟩ gX8_sums_X8_signBehindBlanks rfl hdX8_signBehindBlanks ⟨(by first | exact Nat.le_of_ble_eq_true rfl | (dsimp only [rmX8_sums, rmX8_part, rmX8_factor]; omega)), (by first | exact Nat.le_of_ble_eq_true rfl | (dsimp only [rmX8_sums, rmX8_part, rmX8_factor]; omega))⟩ (Nat.le_of_ble_eq_true rfl) rfl ⟨(by first | exact Nat.le_of_ble_eq_true rfl | (dsimp only [rmX8_sums, rmX8_part, rmX8_factor]; omega)), (by first | exact Nat.le_of_ble_eq_true rfl | (dsimp only [rmX8_sums, rmX8_part, rmX8_factor]; omega))⟩ rfl rfl dX8_sums_74 (fun r16 s16 hp hn16 => ?_)
            subst hp
            try dsimp only at h
            refine r_istore_n G (lv' := [(0, .ref (bd 67)), (1, .int r16)]) [1, 0] rfl rfl (by decide) dX8_sums_77 ?_
            refine r_goto G (tgt := 9) dX8_sums_78 (by decide) ?_
            exact ih _ _ h
        · rw [if_neg c] at h
          refine r_iload_n G 1 rfl rfl dX8_sums_28 ?_
          refine r_bipush G (v := 94) (by decide) dX8_sums_29 ?_
          refine r_icmp_ne G (tgt := 81) dX8_sums_31 (by decide) (fun c => ?_) (fun c => ?_)
          · rw [if_neg c] at h
            exact hret _ _ _ _ _ dX8_sums_81 (Option.some.inj h).symm (Nat.le_of_ble_eq_true rfl) (Nat.le_of_ble_eq_true rfl)
          · rw [if_pos c] at h
            refine r_aload_n G 0 rfl rfl dX8_sums_34 ?_
            refine r_dup G rfl dX8_sums_35 ?_
            refine r_get G (C := RX8) (T := TX8) (N := 19) kX8_sums_X8 67 (mw_MO bd κ _) rfl 12 (by decide) mX8_sums_f170 rfl rfl dX8_sums_36 ?_
            refine r_iconst G (v := 1) (by decide) dX8_sums_39 ?_
            refine r_iadd G dX8_sums_40 ?_
            refine r_put G (C := RX8) (T := TX8) (N := 19) kX8_sums_X8 tyX8 tyX8_ok nmX8 67 (mw_MO bd κ _) rfl 12 (by decide) mX8_sums_f170 rfl rfl (tyX8_ok 12 (by decide)) rfl rfl (Nat.le_of_ble_eq_true rfl) (mu_at bd κ _ _) dX8_sums_41 ?_
            refine r_aload_n G 0 rfl rfl dX8_sums_44 ?_
            obtain ⟨o17, e17, h⟩ := ob h
            refine r_callVv G [] (hS _ _ e17) ⟨67, 8, _, _, rfl, (mw_MO bd κ _), rfl⟩ gX8_sums_X8_part rfl hdX8_part ⟨(by first | exact Nat.le_of_ble_eq_true rfl | (dsimp only [rmX8_sums, rmX8_part, rmX8_factor]; omega)), (by first | exact Nat.le_of_ble_eq_true rfl | (dsimp only [rmX8_sums, rmX8_part, rmX8_factor]; omega))⟩ (Nat.le_of_ble_eq_true rfl) rfl ⟨(by first | exact Nat.le_of_ble_eq_true rfl | (dsimp only [rmX8_sums, rmX8_part, rmX8_factor]; omega)), (by first | exact Nat.le_of_ble_eq_true rfl | (dsimp only [rmX8_sums, rmX8_part, rmX8_factor]; omega))⟩ rfl rfl dX8_sums_45 (fun s17 hp => ?_)
            have hp := hp.symm
            subst hp
            try dsimp only at h
            refine r_aload_n G 0 rfl rfl dX8_sums_48 ?_
            refine r_iload_n G 1 rfl rfl dX8_sums_49 ?_
            refine r_bipush G (v := 124) (by decide) dX8_sums_50 ?_
            refine r_icmp_ne G (tgt := 59) dX8_sums_52 (by decide) (fun c => ?_) (fun c => ?_)
            · rw [if_neg c] at h
              refine r_iload_n G 1 rfl rfl dX8_sums_59 ?_
              refine r_bipush G (v := 45) (by decide) dX8_sums_60 ?_
              refine r_icmp_ne G (tgt := 69) dX8_sums_62 (by decide) (fun c => ?_) (fun c => ?_)
              · rw [if_neg c] at h
                refine r_iconst G (v := 3) (by decide) dX8_sums_69 ?_
                obtain ⟨o18, e18, h⟩ := ob h
                refine r_callVv G [.int 3] (qX8_joinsHighest hE (3 : Int32) _ e18) ⟨67, 8, _, _, rfl, (mw_MO bd κ _), rfl⟩ gX8_sums_X8_joinsHighest rfl hdX8_joinsHighest ⟨(by first | exact Nat.le_of_ble_eq_true rfl | (dsimp only [rmX8_sums, rmX8_part, rmX8_factor]; omega)), (by first | exact Nat.le_of_ble_eq_true rfl | (dsimp only [rmX8_sums, rmX8_part, rmX8_factor]; omega))⟩ (Nat.le_of_ble_eq_true rfl) rfl ⟨(by first | exact Nat.le_of_ble_eq_true rfl | (dsimp only [rmX8_sums, rmX8_part, rmX8_factor]; omega)), (by first | exact Nat.le_of_ble_eq_true rfl | (dsimp only [rmX8_sums, rmX8_part, rmX8_factor]; omega))⟩ rfl rfl dX8_sums_70 (fun s18 hp => ?_)
                have hp := hp.symm
                subst hp
                try dsimp only at h
                refine r_aload_n G 0 rfl rfl dX8_sums_73 ?_
                obtain ⟨o19, e19, h⟩ := ob h
                refine r_callVi G [] (qX8_signBehindBlanks hE _ e19) ⟨67, 8, _, _, rfl, (mw_MO bd κ _), rfl⟩ gX8_sums_X8_signBehindBlanks rfl hdX8_signBehindBlanks ⟨(by first | exact Nat.le_of_ble_eq_true rfl | (dsimp only [rmX8_sums, rmX8_part, rmX8_factor]; omega)), (by first | exact Nat.le_of_ble_eq_true rfl | (dsimp only [rmX8_sums, rmX8_part, rmX8_factor]; omega))⟩ (Nat.le_of_ble_eq_true rfl) rfl ⟨(by first | exact Nat.le_of_ble_eq_true rfl | (dsimp only [rmX8_sums, rmX8_part, rmX8_factor]; omega)), (by first | exact Nat.le_of_ble_eq_true rfl | (dsimp only [rmX8_sums, rmX8_part, rmX8_factor]; omega))⟩ rfl rfl dX8_sums_74 (fun r19 s19 hp hn19 => ?_)
                subst hp
                try dsimp only at h
                refine r_istore_n G (lv' := [(0, .ref (bd 67)), (1, .int r19)]) [1, 0] rfl rfl (by decide) dX8_sums_77 ?_
                refine r_goto G (tgt := 9) dX8_sums_78 (by decide) ?_
                exact ih _ _ h
              · rw [if_pos c] at h
                refine r_iconst G (v := 2) (by decide) dX8_sums_65 ?_
                refine r_goto G (tgt := 70) dX8_sums_66 (by decide) ?_
                obtain ⟨o20, e20, h⟩ := ob h
                refine r_callVv G [.int 2] (qX8_joinsHighest hE (2 : Int32) _ e20) ⟨67, 8, _, _, rfl, (mw_MO bd κ _), rfl⟩ gX8_sums_X8_joinsHighest rfl hdX8_joinsHighest ⟨(by first | exact Nat.le_of_ble_eq_true rfl | (dsimp only [rmX8_sums, rmX8_part, rmX8_factor]; omega)), (by first | exact Nat.le_of_ble_eq_true rfl | (dsimp only [rmX8_sums, rmX8_part, rmX8_factor]; omega))⟩ (Nat.le_of_ble_eq_true rfl) rfl ⟨(by first | exact Nat.le_of_ble_eq_true rfl | (dsimp only [rmX8_sums, rmX8_part, rmX8_factor]; omega)), (by first | exact Nat.le_of_ble_eq_true rfl | (dsimp only [rmX8_sums, rmX8_part, rmX8_factor]; omega))⟩ rfl rfl dX8_sums_70 (fun s20 hp => ?_)
                have hp := hp.symm
                subst hp
                try dsimp only at h
                refine r_aload_n G 0 rfl rfl dX8_sums_73 ?_
                obtain ⟨o21, e21, h⟩ := ob h
                refine r_callVi G [] (qX8_signBehindBlanks hE _ e21) ⟨67, 8, _, _, rfl, (mw_MO bd κ _), rfl⟩ gX8_sums_X8_signBehindBlanks rfl hdX8_signBehindBlanks ⟨(by first | exact Nat.le_of_ble_eq_true rfl | (dsimp only [rmX8_sums, rmX8_part, rmX8_factor]; omega)), (by first | exact Nat.le_of_ble_eq_true rfl | (dsimp only [rmX8_sums, rmX8_part, rmX8_factor]; omega))⟩ (Nat.le_of_ble_eq_true rfl) rfl ⟨(by first | exact Nat.le_of_ble_eq_true rfl | (dsimp only [rmX8_sums, rmX8_part, rmX8_factor]; omega)), (by first | exact Nat.le_of_ble_eq_true rfl | (dsimp only [rmX8_sums, rmX8_part, rmX8_factor]; omega))⟩ rfl rfl dX8_sums_74 (fun r21 s21 hp hn21 => ?_)
                subst hp
                try dsimp only at h
                refine r_istore_n G (lv' := [(0, .ref (bd 67)), (1, .int r21)]) [1, 0] rfl rfl (by decide) dX8_sums_77 ?_
                refine r_goto G (tgt := 9) dX8_sums_78 (by decide) ?_
                exact ih _ _ h
            · rw [if_pos c] at h
              refine r_iconst G (v := 0) (by decide) dX8_sums_55 ?_
              refine r_goto G (tgt := 70) dX8_sums_56 (by decide) ?_
              obtain ⟨o22, e22, h⟩ := ob h
              refine r_callVv G [.int 0] (qX8_joinsHighest hE (0 : Int32) _ e22) ⟨67, 8, _, _, rfl, (mw_MO bd κ _), rfl⟩ gX8_sums_X8_joinsHighest rfl hdX8_joinsHighest ⟨(by first | exact Nat.le_of_ble_eq_true rfl | (dsimp only [rmX8_sums, rmX8_part, rmX8_factor]; omega)), (by first | exact Nat.le_of_ble_eq_true rfl | (dsimp only [rmX8_sums, rmX8_part, rmX8_factor]; omega))⟩ (Nat.le_of_ble_eq_true rfl) rfl ⟨(by first | exact Nat.le_of_ble_eq_true rfl | (dsimp only [rmX8_sums, rmX8_part, rmX8_factor]; omega)), (by first | exact Nat.le_of_ble_eq_true rfl | (dsimp only [rmX8_sums, rmX8_part, rmX8_factor]; omega))⟩ rfl rfl dX8_sums_70 (fun s22 hp => ?_)
              have hp := hp.symm
              subst hp
              try dsimp only at h
              refine r_aload_n G 0 rfl rfl dX8_sums_73 ?_
              obtain ⟨o23, e23, h⟩ := ob h
              refine r_callVi G [] (qX8_signBehindBlanks hE _ e23) ⟨67, 8, _, _, rfl, (mw_MO bd κ _), rfl⟩ gX8_sums_X8_signBehindBlanks rfl hdX8_signBehindBlanks ⟨(by first | exact Nat.le_of_ble_eq_true rfl | (dsimp only [rmX8_sums, rmX8_part, rmX8_factor]; omega)), (by first | exact Nat.le_of_ble_eq_true rfl | (dsimp only [rmX8_sums, rmX8_part, rmX8_factor]; omega))⟩ (Nat.le_of_ble_eq_true rfl) rfl ⟨(by first | exact Nat.le_of_ble_eq_true rfl | (dsimp only [rmX8_sums, rmX8_part, rmX8_factor]; omega)), (by first | exact Nat.le_of_ble_eq_true rfl | (dsimp only [rmX8_sums, rmX8_part, rmX8_factor]; omega))⟩ rfl rfl dX8_sums_74 (fun r23 s23 hp hn23 => ?_)
              subst hp
              try dsimp only at h
              refine r_istore_n G (lv' := [(0, .ref (bd 67)), (1, .int r23)]) [1, 0] rfl rfl (by decide) dX8_sums_77 ?_
              refine r_goto G (tgt := 9) dX8_sums_78 (by decide) ?_
              exact ih _ _ h
set_option maxHeartbeats 4000000 in
set_option maxRecDepth 100000 in
theorem qX8_sums {E : evT} {l : Launch} {D : va_G} {bd : Nat → Nat} {κ : Nat → ClassId} (hE : EvOk E) (d : Nat) (S : mS → Option mS) (hS : ∀ (s : mS) (o : mS), S s = some o → Cv l yX8_part wsX8_part (rmX8_part d) (mW bd κ) E D (tyA κ) [.ref (bd 67)] s (fun s2 => o = s2)) (s : mS) {o : (mS)} (h : fX8_sums S s = some o) : Cv l yX8_sums wsX8_sums (rmX8_sums (d + 1)) (mW bd κ) E D (tyA κ)  [.ref (bd 67)] s (fun s2 => o = s2) := by
  rw [fX8_sums] at h
  refine s_v (cc := cX8_sums) (nL := 2) (own := RX8) hE (mW_WA bd κ) (by decide) rfl rfl (Nat.le_of_ble_eq_true rfl) (fun Γ G hret => ?_)
  refine r_aload_n G 0 rfl rfl dX8_sums_0 ?_
  obtain ⟨o1, e1, h⟩ := ob h
  refine r_callVv G [] (hS _ _ e1) ⟨67, 8, _, _, rfl, (mw_MO bd κ _), rfl⟩ gX8_sums_X8_part rfl hdX8_part ⟨(by first | exact Nat.le_of_ble_eq_true rfl | (dsimp only [rmX8_sums, rmX8_part, rmX8_factor]; omega)), (by first | exact Nat.le_of_ble_eq_true rfl | (dsimp only [rmX8_sums, rmX8_part, rmX8_factor]; omega))⟩ (Nat.le_of_ble_eq_true rfl) rfl ⟨(by first | exact Nat.le_of_ble_eq_true rfl | (dsimp only [rmX8_sums, rmX8_part, rmX8_factor]; omega)), (by first | exact Nat.le_of_ble_eq_true rfl | (dsimp only [rmX8_sums, rmX8_part, rmX8_factor]; omega))⟩ rfl rfl dX8_sums_1 (fun s1 hp => ?_)
  have hp := hp.symm
  subst hp
  try dsimp only at h
  refine r_aload_n G 0 rfl rfl dX8_sums_4 ?_
  obtain ⟨o2, e2, h⟩ := ob h
  refine r_callVi G [] (qX8_signBehindBlanks hE _ e2) ⟨67, 8, _, _, rfl, (mw_MO bd κ _), rfl⟩ gX8_sums_X8_signBehindBlanks rfl hdX8_signBehindBlanks ⟨(by first | exact Nat.le_of_ble_eq_true rfl | (dsimp only [rmX8_sums, rmX8_part, rmX8_factor]; omega)), (by first | exact Nat.le_of_ble_eq_true rfl | (dsimp only [rmX8_sums, rmX8_part, rmX8_factor]; omega))⟩ (Nat.le_of_ble_eq_true rfl) rfl ⟨(by first | exact Nat.le_of_ble_eq_true rfl | (dsimp only [rmX8_sums, rmX8_part, rmX8_factor]; omega)), (by first | exact Nat.le_of_ble_eq_true rfl | (dsimp only [rmX8_sums, rmX8_part, rmX8_factor]; omega))⟩ rfl rfl dX8_sums_5 (fun r2 s2 hp hn2 => ?_)
  subst hp
  try dsimp only at h
  refine r_istore_n G (lv' := [(0, .ref (bd 67)), (1, .int r2)]) [1, 0] rfl rfl (by decide) dX8_sums_8 ?_
  refine wX8_sums_L9 hE d S hS G hret 1100 _ _ h
/-- a sum within at most d brackets -/
theorem qX8_sumsD {E : evT} {l : Launch} {D : va_G} {bd : Nat → Nat} {κ : Nat → ClassId} (hE : EvOk E) : ∀ (d : Nat) (s o : mS), sumsD d s = some o → Cv l yX8_sums wsX8_sums (rmX8_sums d) (mW bd κ) E D (tyA κ) [.ref (bd 67)] s (fun s2 => o = s2) := by
  intro d
  induction d with
  | zero =>
    intro s o h
    have h : none = some o := h
    cases h
  | succ d ih => exact fun s o h => qX8_sums hE d _ (fun s o h => qX8_part hE d _ (fun s o h => qX8_factor hE d _ ih s h) s h) s h
