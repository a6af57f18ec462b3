abbrev rmX8_primesIn : Room := { frames := 3, cells := 0, slots := 0, locals := 70 }
set_option maxRecDepth 20000 in
theorem kX8_primesIn_X8 : ∀ w ∈ u_ws RX8 TX8 19, w ∈ wsX8_primesIn := by decide +kernel
set_option maxRecDepth 20000 in
theorem mX8_primesIn_f59 : Cond.fieldLink RX8 59 "SetCouncilModel" "keptMany" "I" ∈ wsX8_primesIn := by decide +kernel
set_option maxRecDepth 20000 in
theorem mX8_primesIn_f34 : Cond.fieldLink RX8 34 "SetCouncilModel" "kept" "[[Z" ∈ wsX8_primesIn := by decide +kernel
set_option maxHeartbeats 4000000 in
set_option maxRecDepth 100000 in
theorem wX8_primesIn_L4 {E : evT} {l : Launch} {D : va_G} {bd : Nat → Nat} {κ : Nat → ClassId} (hE : EvOk E) {Γ : cxT} (G : Cx (mW bd κ) D (tyA κ) E l Γ cX8_primesIn RX8 wsX8_primesIn 4 rmX8_primesIn) (z1 : Nat) (hz1 : z1 < 67) {o : (Int32 × mS)} (hret : ∀ (st2 : mS) (v : Int32) (cells slots pc : Nat) (lv : List (Nat × Value)), decode cX8_primesIn pc = .ok (.ireturn, 1) → o = (v, st2) → narrow .int (.int v) = .int v → cells ≤ rmX8_primesIn.cells → slots ≤ rmX8_primesIn.slots → V (mW bd κ) D Γ st2 cells slots pc lv [.int v]) : ∀ (fuel : Nat) (x2 : Int32) (x3 : Int32) (s : mS), fX8_primesIn_L4 z1 fuel x2 x3 s = some o → V (mW bd κ) D Γ s 0 0 4 [(0, .ref (bd 67)), (1, .ref (bd z1)), (2, .int x2), (3, .int x3)] [] := by
  intro fuel
  induction fuel with
  | zero =>
    intro _ _ _ h
    have h : none = some o := h
    cases h
  | succ fuel ih =>
    intro x2 x3 s h
    rw [fX8_primesIn_L4] at h
    refine r_iload_n G 3 rfl rfl dX8_primesIn_4 ?_
    refine r_aload_n G 0 rfl rfl dX8_primesIn_5 ?_
    refine r_get G (C := RX8) (T := TX8) (N := 19) kX8_primesIn_X8 67 (mw_MO bd κ _) rfl 5 (by decide) mX8_primesIn_f59 rfl rfl dX8_primesIn_6 ?_
    refine r_icmp_ge G (tgt := 47) dX8_primesIn_9 (by decide) (fun c => ?_) (fun c => ?_)
    · rw [if_pos c] at h
      refine r_iload_n G 2 rfl rfl dX8_primesIn_47 ?_
      exact hret _ _ _ _ _ _ dX8_primesIn_48 (Option.some.inj h).symm rfl (Nat.le_of_ble_eq_true rfl) (Nat.le_of_ble_eq_true rfl)
    · rw [if_neg c] at h
      refine r_iload_n G 2 rfl rfl dX8_primesIn_12 ?_
      refine r_aload_n G 0 rfl rfl dX8_primesIn_13 ?_
      refine r_get G (C := RX8) (T := TX8) (N := 19) kX8_primesIn_X8 67 (mw_MO bd κ _) rfl 3 (by decide) mX8_primesIn_f34 rfl rfl dX8_primesIn_14 ?_
      refine r_iload_n G 3 rfl rfl dX8_primesIn_17 ?_
      obtain ⟨g1, h⟩ := og h
      refine r_aldA G (69 + 0) 5 (mw_GRID bd κ _ (by decide)) rfl (vin_in g1) rfl dX8_primesIn_18 ?_
      refine r_aload_n G 1 rfl rfl dX8_primesIn_19 ?_
      obtain ⟨o2, e2, h⟩ := ob h
      refine r_callSi G [.ref (bd (9 + 7 * 0 + x3.toNatClampNeg)), .ref (bd z1)] (qX8_lies hE (9 + 7 * 0 + x3.toNatClampNeg) (by have := vin_lt g1; have h2 : 0 < 2 := (by decide); omega) z1 hz1 _ e2) gX8_primesIn_X8_lies rfl hdX8_lies ⟨Nat.le_of_ble_eq_true rfl, Nat.le_of_ble_eq_true rfl⟩ (Nat.le_of_ble_eq_true rfl) rfl ⟨Nat.le_of_ble_eq_true rfl, Nat.le_of_ble_eq_true rfl⟩ rfl rfl dX8_primesIn_20 (fun r2 s2 hp hn2 => ?_)
      subst hp
      try dsimp only at h
      refine r_if_eq G (tgt := 38) dX8_primesIn_23 (by decide) (fun c => ?_) (fun c => ?_)
      · rw [if_pos c] at h
        refine r_iconst G (v := 0) (by decide) dX8_primesIn_38 ?_
        refine r_iadd G dX8_primesIn_39 ?_
        refine r_istore_n G (lv' := [(0, .ref (bd 67)), (1, .ref (bd z1)), (2, .int (x2 + 0)), (3, .int x3)]) [1, 2, 0, 3] rfl rfl (by decide) dX8_primesIn_40 ?_
        refine r_iinc G (j := 3) rfl (v := x3 + 1) (lv' := [(0, .ref (bd 67)), (1, .ref (bd z1)), (2, .int (x2 + 0)), (3, .int (x3 + 1))]) rfl [1, 2, 3, 0] rfl (by decide) dX8_primesIn_41 ?_
        refine r_goto G (tgt := 4) dX8_primesIn_44 (by decide) ?_
        exact ih _ _ _ h
      · rw [if_neg c] at h
        refine r_aload_n G 0 rfl rfl dX8_primesIn_26 ?_
        refine r_iload_n G 3 rfl rfl dX8_primesIn_27 ?_
        obtain ⟨o3, e3, h⟩ := ob h
        refine r_callVi G [.int x3] (qX8_isPrime hE x3 _ e3) ⟨67, 8, _, _, rfl, (mw_MO bd κ _), rfl⟩ gX8_primesIn_X8_isPrime rfl hdX8_isPrime ⟨Nat.le_of_ble_eq_true rfl, Nat.le_of_ble_eq_true rfl⟩ (Nat.le_of_ble_eq_true rfl) rfl ⟨Nat.le_of_ble_eq_true rfl, Nat.le_of_ble_eq_true rfl⟩ rfl rfl dX8_primesIn_28 (fun r3 s3 hp hn3 => ?_)
        subst hp
        try dsimp only at h
        refine r_if_eq G (tgt := 38) dX8_primesIn_31 (by decide) (fun c => ?_) (fun c => ?_)
        · rw [if_pos c] at h
          refine r_iconst G (v := 0) (by decide) dX8_primesIn_38 ?_
          refine r_iadd G dX8_primesIn_39 ?_
          refine r_istore_n G (lv' := [(0, .ref (bd 67)), (1, .ref (bd z1)), (2, .int (x2 + 0)), (3, .int x3)]) [1, 2, 0, 3] rfl rfl (by decide) dX8_primesIn_40 ?_
          refine r_iinc G (j := 3) rfl (v := x3 + 1) (lv' := [(0, .ref (bd 67)), (1, .ref (bd z1)), (2, .int (x2 + 0)), (3, .int (x3 + 1))]) rfl [1, 2, 3, 0] rfl (by decide) dX8_primesIn_41 ?_
          refine r_goto G (tgt := 4) dX8_primesIn_44 (by decide) ?_
          exact ih _ _ _ h
        · rw [if_neg c] at h
          refine r_iconst G (v := 1) (by decide) dX8_primesIn_34 ?_
          refine r_goto G (tgt := 39) dX8_primesIn_35 (by decide) ?_
          refine r_iadd G dX8_primesIn_39 ?_
          refine r_istore_n G (lv' := [(0, .ref (bd 67)), (1, .ref (bd z1)), (2, .int (x2 + 1)), (3, .int x3)]) [1, 2, 0, 3] rfl rfl (by decide) dX8_primesIn_40 ?_
          refine r_iinc G (j := 3) rfl (v := x3 + 1) (lv' := [(0, .ref (bd 67)), (1, .ref (bd z1)), (2, .int (x2 + 1)), (3, .int (x3 + 1))]) rfl [1, 2, 3, 0] rfl (by decide) dX8_primesIn_41 ?_
          refine r_goto G (tgt := 4) dX8_primesIn_44 (by decide) ?_
          exact ih _ _ _ h
set_option maxHeartbeats 4000000 in
set_option maxRecDepth 100000 in
theorem qX8_primesIn {E : evT} {l : Launch} {D : va_G} {bd : Nat → Nat} {κ : Nat → ClassId} (hE : EvOk E) (p0 : Nat) (hp0 : p0 < 67) (s : mS) {o : (Int32 × mS)} (h : fX8_primesIn p0 s = some o) : Ci l yX8_primesIn wsX8_primesIn rmX8_primesIn (mW bd κ) E D (tyA κ) .int [.ref (bd 67), .ref (bd p0)] s (fun r s2 => o = (r, s2)) := by
  rw [fX8_primesIn] at h
  refine s_i (cc := cX8_primesIn) (nL := 4) (own := RX8) hE (mW_WA bd κ) (plainFor_of_name (by decide)) rfl rfl (Nat.le_of_ble_eq_true rfl) (fun Γ G hret => ?_)
  refine r_iconst G (v := 0) (by decide) dX8_primesIn_0 ?_
  refine r_istore_n G (lv' := [(0, .ref (bd 67)), (1, .ref (bd p0)), (2, .int 0)]) [1, 2, 0] rfl rfl (by decide) dX8_primesIn_1 ?_
  refine r_iconst G (v := 0) (by decide) dX8_primesIn_2 ?_
  refine r_istore_n G (lv' := [(0, .ref (bd 67)), (1, .ref (bd p0)), (2, .int 0), (3, .int 0)]) [1, 2, 3, 0] rfl rfl (by decide) dX8_primesIn_3 ?_
  refine wX8_primesIn_L4 hE G _ hp0 hret 1100 _ _ _ h
abbrev rmX8_primes : Room := { frames := 3, cells := 0, slots := 0, locals := 70 }
set_option maxRecDepth 20000 in
theorem kX8_primes_X8 : ∀ w ∈ u_ws RX8 TX8 19, w ∈ wsX8_primes := by decide +kernel
set_option maxRecDepth 20000 in
theorem mX8_primes_f3 : Cond.fieldLink RX8 3 "SetCouncilModel" "thrown" "I" ∈ wsX8_primes := by decide +kernel
set_option maxRecDepth 20000 in
theorem mX8_primes_f59 : Cond.fieldLink RX8 59 "SetCouncilModel" "keptMany" "I" ∈ wsX8_primes := by decide +kernel
set_option maxHeartbeats 4000000 in
set_option maxRecDepth 100000 in
theorem wX8_primes_L9 {E : evT} {l : Launch} {D : va_G} {bd : Nat → Nat} {κ : Nat → ClassId} (hE : EvOk E) {Γ : cxT} (G : Cx (mW bd κ) D (tyA κ) E l Γ cX8_primes RX8 wsX8_primes 3 rmX8_primes) {o : (Int32 × mS)} (hret : ∀ (st2 : mS) (v : Int32) (cells slots pc : Nat) (lv : List (Nat × Value)), decode cX8_primes pc = .ok (.ireturn, 1) → o = (v, st2) → narrow .int (.int v) = .int v → cells ≤ rmX8_primes.cells → slots ≤ rmX8_primes.slots → V (mW bd κ) D Γ st2 cells slots pc lv [.int v]) : ∀ (fuel : Nat) (x1 : Int32) (x2 : Int32) (s : mS), fX8_primes_L9 fuel x1 x2 s = some o → V (mW bd κ) D Γ s 0 0 9 [(0, .ref (bd 67)), (1, .int x1), (2, .int x2)] [] := by
  intro fuel
  induction fuel with
  | zero =>
    intro _ _ _ h
    have h : none = some o := h
    cases h
  | succ fuel ih =>
    intro x1 x2 s h
    rw [fX8_primes_L9] at h
    refine r_iload_n G 2 rfl rfl dX8_primes_9 ?_
    refine r_aload_n G 0 rfl rfl dX8_primes_10 ?_
    refine r_get G (C := RX8) (T := TX8) (N := 19) kX8_primes_X8 67 (mw_MO bd κ _) rfl 5 (by decide) mX8_primes_f59 rfl rfl dX8_primes_11 ?_
    refine r_icmp_ge G (tgt := 39) dX8_primes_14 (by decide) (fun c => ?_) (fun c => ?_)
    · rw [if_pos c] at h
      refine r_iload_n G 1 rfl rfl dX8_primes_39 ?_
      exact hret _ _ _ _ _ _ dX8_primes_40 (Option.some.inj h).symm rfl (Nat.le_of_ble_eq_true rfl) (Nat.le_of_ble_eq_true rfl)
    · rw [if_neg c] at h
      refine r_iload_n G 1 rfl rfl dX8_primes_17 ?_
      refine r_aload_n G 0 rfl rfl dX8_primes_18 ?_
      refine r_iload_n G 2 rfl rfl dX8_primes_19 ?_
      obtain ⟨o1, e1, h⟩ := ob h
      refine r_callVi G [.int x2] (qX8_isPrime hE x2 _ e1) ⟨67, 8, _, _, rfl, (mw_MO bd κ _), rfl⟩ gX8_primes_X8_isPrime rfl hdX8_isPrime ⟨Nat.le_of_ble_eq_true rfl, Nat.le_of_ble_eq_true rfl⟩ (Nat.le_of_ble_eq_true rfl) rfl ⟨Nat.le_of_ble_eq_true rfl, Nat.le_of_ble_eq_true rfl⟩ rfl rfl dX8_primes_20 (fun r1 s1 hp hn1 => ?_)
      subst hp
      try dsimp only at h
      refine r_if_eq G (tgt := 30) dX8_primes_23 (by decide) (fun c => ?_) (fun c => ?_)
      · rw [if_pos c] at h
        refine r_iconst G (v := 0) (by decide) dX8_primes_30 ?_
        refine r_iadd G dX8_primes_31 ?_
        refine r_istore_n G (lv' := [(0, .ref (bd 67)), (1, .int (x1 + 0)), (2, .int x2)]) [1, 0, 2] rfl rfl (by decide) dX8_primes_32 ?_
        refine r_iinc G (j := 2) rfl (v := x2 + 1) (lv' := [(0, .ref (bd 67)), (1, .int (x1 + 0)), (2, .int (x2 + 1))]) rfl [1, 2, 0] rfl (by decide) dX8_primes_33 ?_
        refine r_goto G (tgt := 9) dX8_primes_36 (by decide) ?_
        exact ih _ _ _ h
      · rw [if_neg c] at h
        refine r_iconst G (v := 1) (by decide) dX8_primes_26 ?_
        refine r_goto G (tgt := 31) dX8_primes_27 (by decide) ?_
        refine r_iadd G dX8_primes_31 ?_
        refine r_istore_n G (lv' := [(0, .ref (bd 67)), (1, .int (x1 + 1)), (2, .int x2)]) [1, 0, 2] rfl rfl (by decide) dX8_primes_32 ?_
        refine r_iinc G (j := 2) rfl (v := x2 + 1) (lv' := [(0, .ref (bd 67)), (1, .int (x1 + 1)), (2, .int (x2 + 1))]) rfl [1, 2, 0] rfl (by decide) dX8_primes_33 ?_
        refine r_goto G (tgt := 9) dX8_primes_36 (by decide) ?_
        exact ih _ _ _ h
set_option maxHeartbeats 4000000 in
set_option maxRecDepth 100000 in
theorem qX8_primes {E : evT} {l : Launch} {D : va_G} {bd : Nat → Nat} {κ : Nat → ClassId} (hE : EvOk E) (s : mS) {o : (Int32 × mS)} (h : fX8_primes s = some o) : Ci l yX8_primes wsX8_primes rmX8_primes (mW bd κ) E D (tyA κ) .int [.ref (bd 67)] s (fun r s2 => o = (r, s2)) := by
  rw [fX8_primes] at h
  refine s_i (cc := cX8_primes) (nL := 3) (own := RX8) hE (mW_WA bd κ) (plainFor_of_name (by decide)) rfl rfl (Nat.le_of_ble_eq_true rfl) (fun Γ G hret => ?_)
  refine r_aload_n G 0 rfl rfl dX8_primes_0 ?_
  refine r_iconst G (v := 0) (by decide) dX8_primes_1 ?_
  refine r_put G (C := RX8) (T := TX8) (N := 19) kX8_primes_X8 tyX8 tyX8_ok nmX8 67 (mw_MO bd κ _) rfl 0 (by decide) mX8_primes_f3 rfl rfl (tyX8_ok 0 (by decide)) rfl rfl (Nat.le_of_ble_eq_true rfl) (mu_thrown bd κ _ _) dX8_primes_2 ?_
  refine r_iconst G (v := 0) (by decide) dX8_primes_5 ?_
  refine r_istore_n G (lv' := [(0, .ref (bd 67)), (1, .int 0)]) [1, 0] rfl rfl (by decide) dX8_primes_6 ?_
  refine r_iconst G (v := 0) (by decide) dX8_primes_7 ?_
  refine r_istore_n G (lv' := [(0, .ref (bd 67)), (1, .int 0), (2, .int 0)]) [1, 2, 0] rfl rfl (by decide) dX8_primes_8 ?_
  refine wX8_primes_L9 hE G hret 1100 _ _ _ h
abbrev rmX8_primesWithin : Room := { frames := 4, cells := 0, slots := 0, locals := 93 }
set_option maxRecDepth 20000 in
theorem kX8_primesWithin_X8 : ∀ w ∈ u_ws RX8 TX8 19, w ∈ wsX8_primesWithin := by decide +kernel
set_option maxRecDepth 20000 in
theorem mX8_primesWithin_f27 : Cond.fieldLink RX8 27 "SetCouncilModel" "sets" "[[Z" ∈ wsX8_primesWithin := by decide +kernel
theorem hdX8_primesIn : yX8_primesIn.cls = RX8 ∧ yX8_primesIn.cls ≠ "java/lang/invoke/MethodHandle" ∧ yX8_primesIn.cls ≠ "java/lang/invoke/VarHandle" ∧ (parseMethodDescriptor yX8_primesIn.desc).map (fun d => d.parameters.length) = some 1 := by decide +kernel
set_option maxHeartbeats 4000000 in
set_option maxRecDepth 100000 in
theorem qX8_primesWithin {E : evT} {l : Launch} {D : va_G} {bd : Nat → Nat} {κ : Nat → ClassId} (hE : EvOk E) (p0 : Int32) (s : mS) {o : (Int32 × mS)} (h : fX8_primesWithin p0 s = some o) : Ci l yX8_primesWithin wsX8_primesWithin rmX8_primesWithin (mW bd κ) E D (tyA κ) .int [.ref (bd 67), .int p0] s (fun r s2 => o = (r, s2)) := by
  rw [fX8_primesWithin] at h
  refine s_i (cc := cX8_primesWithin) (nL := 2) (own := RX8) hE (mW_WA bd κ) (plainFor_of_name (by decide)) rfl rfl (Nat.le_of_ble_eq_true rfl) (fun Γ G hret => ?_)
  refine r_aload_n G 0 rfl rfl dX8_primesWithin_0 ?_
  refine r_iload_n G 1 rfl rfl dX8_primesWithin_1 ?_
  refine r_callSi G [.int p0] (qX8_isSet hE p0 _) gX8_primesWithin_X8_isSet rfl hdX8_isSet ⟨Nat.le_of_ble_eq_true rfl, Nat.le_of_ble_eq_true rfl⟩ (Nat.le_of_ble_eq_true rfl) rfl ⟨Nat.le_of_ble_eq_true rfl, Nat.le_of_ble_eq_true rfl⟩ rfl rfl dX8_primesWithin_2 (fun r1 s1 hp hn1 => ?_)
  obtain ⟨rfl, hs⟩ := hp
  have hs := hs.symm
  subst hs
  refine r_iconst G (v := 1) (by decide) dX8_primesWithin_5 ?_
  obtain ⟨o2, e2, h⟩ := ob h
  refine r_callVi G [.int (fX8_isSet p0 s), .int 1] (qX8_passes hE (fX8_isSet p0 s) (1 : Int32) _ e2) ⟨67, 8, _, _, rfl, (mw_MO bd κ _), rfl⟩ gX8_primesWithin_X8_passes rfl hdX8_passes ⟨Nat.le_of_ble_eq_true rfl, Nat.le_of_ble_eq_true rfl⟩ (Nat.le_of_ble_eq_true rfl) rfl ⟨Nat.le_of_ble_eq_true rfl, Nat.le_of_ble_eq_true rfl⟩ rfl rfl dX8_primesWithin_6 (fun r2 s2 hp hn2 => ?_)
  subst hp
  try dsimp only at h
  refine r_if_eq G (tgt := 25) dX8_primesWithin_9 (by decide) (fun c => ?_) (fun c => ?_)
  · rw [if_pos c] at h
    refine r_iconst G (v := 0) (by decide) dX8_primesWithin_25 ?_
    exact hret _ _ _ _ _ _ dX8_primesWithin_26 (Option.some.inj h).symm rfl (Nat.le_of_ble_eq_true rfl) (Nat.le_of_ble_eq_true rfl)
  · rw [if_neg c] at h
    refine r_aload_n G 0 rfl rfl dX8_primesWithin_12 ?_
    refine r_aload_n G 0 rfl rfl dX8_primesWithin_13 ?_
    refine r_get G (C := RX8) (T := TX8) (N := 19) kX8_primesWithin_X8 67 (mw_MO bd κ _) rfl 1 (by decide) mX8_primesWithin_f27 rfl rfl dX8_primesWithin_14 ?_
    refine r_iload_n G 1 rfl rfl dX8_primesWithin_17 ?_
    obtain ⟨g3, h⟩ := og h
    refine r_aldA G 68 5 (mw_SETSG bd κ _) rfl (vin_in g3) rfl dX8_primesWithin_18 ?_
    obtain ⟨o4, e4, h⟩ := ob h
    refine r_callVi G [.ref (bd p0.toNatClampNeg)] (qX8_primesIn hE p0.toNatClampNeg (by have := vin_lt g3; omega) _ e4) ⟨67, 8, _, _, rfl, (mw_MO bd κ _), rfl⟩ gX8_primesWithin_X8_primesIn rfl hdX8_primesIn ⟨Nat.le_of_ble_eq_true rfl, Nat.le_of_ble_eq_true rfl⟩ (Nat.le_of_ble_eq_true rfl) rfl ⟨Nat.le_of_ble_eq_true rfl, Nat.le_of_ble_eq_true rfl⟩ rfl rfl dX8_primesWithin_19 (fun r4 s4 hp hn4 => ?_)
    subst hp
    try dsimp only at h
    refine r_goto G (tgt := 26) dX8_primesWithin_22 (by decide) ?_
    exact hret _ _ _ _ _ _ dX8_primesWithin_26 (Option.some.inj h).symm rfl (Nat.le_of_ble_eq_true rfl) (Nat.le_of_ble_eq_true rfl)
abbrev rmX8_reads : Room := { frames := 41, cells := 0, slots := 0, locals := 841 }
set_option maxRecDepth 20000 in
theorem kX8_reads_X8 : ∀ w ∈ u_ws RX8 TX8 19, w ∈ wsX8_reads := by decide +kernel
set_option maxRecDepth 20000 in
theorem mX8_reads_f164 : Cond.fieldLink RX8 164 "SetCouncilModel" "errorKind" "I" ∈ wsX8_reads := by decide +kernel
set_option maxRecDepth 20000 in
theorem mX8_reads_f167 : Cond.fieldLink RX8 167 "SetCouncilModel" "errorPlace" "I" ∈ wsX8_reads := by decide +kernel
set_option maxRecDepth 20000 in
theorem mX8_reads_f170 : Cond.fieldLink RX8 170 "SetCouncilModel" "at" "I" ∈ wsX8_reads := by decide +kernel
set_option maxRecDepth 20000 in
theorem mX8_reads_f206 : Cond.fieldLink RX8 206 "SetCouncilModel" "open" "I" ∈ wsX8_reads := by decide +kernel
set_option maxRecDepth 20000 in
theorem mX8_reads_f200 : Cond.fieldLink RX8 200 "SetCouncilModel" "high" "I" ∈ wsX8_reads := by decide +kernel
set_option maxRecDepth 20000 in
theorem mX8_reads_f47 : Cond.fieldLink RX8 47 "SetCouncilModel" "pile" "[[Z" ∈ wsX8_reads := by decide +kernel
set_option maxRecDepth 20000 in
theorem mX8_reads_f27 : Cond.fieldLink RX8 27 "SetCouncilModel" "sets" "[[Z" ∈ wsX8_reads := by decide +kernel
set_option maxRecDepth 20000 in
theorem mX8_reads_f141 : Cond.fieldLink RX8 141 "SetCouncilModel" "textMany" "I" ∈ wsX8_reads := by decide +kernel
set_option maxHeartbeats 4000000 in
set_option maxRecDepth 100000 in
theorem wX8_reads_L22 {E : evT} {l : Launch} {D : va_G} {bd : Nat → Nat} {κ : Nat → ClassId} (hE : EvOk E) {Γ : cxT} (G : Cx (mW bd κ) D (tyA κ) E l Γ cX8_reads RX8 wsX8_reads 4 rmX8_reads) (x1 : Int32) {o : (Int32 × mS)} (hret : ∀ (st2 : mS) (v : Int32) (cells slots pc : Nat) (lv : List (Nat × Value)), decode cX8_reads pc = .ok (.ireturn, 1) → o = (v, st2) → narrow .int (.int v) = .int v → cells ≤ rmX8_reads.cells → slots ≤ rmX8_reads.slots → V (mW bd κ) D Γ st2 cells slots pc lv [.int v]) : ∀ (fuel : Nat) (x2 : Int32) (s : mS), fX8_reads_L22 x1 fuel x2 s = some o → V (mW bd κ) D Γ s 0 0 22 [(0, .ref (bd 67)), (1, .int x1), (2, .int x2)] [] := by
  intro fuel
  induction fuel with
  | zero =>
    intro _ _ h
    have h : none = some o := h
    cases h
  | succ fuel ih =>
    intro x2 s h
    rw [fX8_reads_L22] at h
    refine r_aload_n G 0 rfl rfl dX8_reads_22 ?_
    refine r_get G (C := RX8) (T := TX8) (N := 19) kX8_reads_X8 67 (mw_MO bd κ _) rfl 14 (by decide) mX8_reads_f164 rfl rfl dX8_reads_23 ?_
    refine r_if_ne G (tgt := 151) dX8_reads_26 (by decide) (fun c => ?_) (fun c => ?_)
    · rw [if_neg c] at h
      refine r_iload_n G 2 rfl rfl dX8_reads_151 ?_
      exact hret _ _ _ _ _ _ dX8_reads_152 (Option.some.inj h).symm rfl (Nat.le_of_ble_eq_true rfl) (Nat.le_of_ble_eq_true rfl)
    · rw [if_pos c] at h
      refine r_aload_n G 0 rfl rfl dX8_reads_29 ?_
      obtain ⟨o1, e1, h⟩ := ob h
      refine r_callVi G [] (qX8_signBehindBlanks hE _ e1) ⟨67, 8, _, _, rfl, (mw_MO bd κ _), rfl⟩ gX8_reads_X8_signBehindBlanks rfl hdX8_signBehindBlanks ⟨Nat.le_of_ble_eq_true rfl, Nat.le_of_ble_eq_true rfl⟩ (Nat.le_of_ble_eq_true rfl) rfl ⟨Nat.le_of_ble_eq_true rfl, Nat.le_of_ble_eq_true rfl⟩ rfl rfl dX8_reads_30 (fun r1 s1 hp hn1 => ?_)
      subst hp
      try dsimp only at h
      refine r_if_ne G (tgt := 47) dX8_reads_33 (by decide) (fun c => ?_) (fun c => ?_)
      · rw [if_neg c] at h
        refine r_aload_n G 0 rfl rfl dX8_reads_47 ?_
        obtain ⟨o2, e2, h⟩ := ob h
        refine r_callVi G [] (qX8_sign hE _ e2) ⟨67, 8, _, _, rfl, (mw_MO bd κ _), rfl⟩ gX8_reads_X8_sign rfl hdX8_sign ⟨Nat.le_of_ble_eq_true rfl, Nat.le_of_ble_eq_true rfl⟩ (Nat.le_of_ble_eq_true rfl) rfl ⟨Nat.le_of_ble_eq_true rfl, Nat.le_of_ble_eq_true rfl⟩ rfl rfl dX8_reads_48 (fun r2 s2 hp hn2 => ?_)
        subst hp
        try dsimp only at h
        refine r_bipush G (v := 97) (by decide) dX8_reads_51 ?_
        refine r_isub G dX8_reads_53 ?_
        refine r_istore_n G (lv' := [(0, .ref (bd 67)), (1, .int x1), (2, .int x2), (3, .int (r2 - 97))]) [1, 2, 3, 0] rfl rfl (by decide) dX8_reads_54 ?_
        refine r_aload_n G 0 rfl rfl dX8_reads_55 ?_
        refine r_iconst G (v := 0) (by decide) dX8_reads_56 ?_
        refine r_put G (C := RX8) (T := TX8) (N := 19) kX8_reads_X8 tyX8 tyX8_ok nmX8 67 (mw_MO bd κ _) rfl 11 (by decide) mX8_reads_f200 rfl rfl (tyX8_ok 11 (by decide)) rfl rfl (Nat.le_of_ble_eq_true rfl) (mu_high bd κ _ _) dX8_reads_57 ?_
        refine r_iload_n G 3 rfl rfl dX8_reads_60 ?_
        refine r_callSi G [.int (r2 - 97)] (qX8_isSet hE (r2 - 97) _) gX8_reads_X8_isSet rfl hdX8_isSet ⟨Nat.le_of_ble_eq_true rfl, Nat.le_of_ble_eq_true rfl⟩ (Nat.le_of_ble_eq_true rfl) rfl ⟨Nat.le_of_ble_eq_true rfl, Nat.le_of_ble_eq_true rfl⟩ rfl rfl dX8_reads_61 (fun r3 s3 hp hn3 => ?_)
        obtain ⟨rfl, hs⟩ := hp
        have hs := hs.symm
        subst hs
        refine r_if_ne G (tgt := 79) dX8_reads_64 (by decide) (fun c => ?_) (fun c => ?_)
        · rw [if_neg c] at h
          refine r_aload_n G 0 rfl rfl dX8_reads_79 ?_
          refine r_dup G rfl dX8_reads_80 ?_
          refine r_get G (C := RX8) (T := TX8) (N := 19) kX8_reads_X8 67 (mw_MO bd κ _) rfl 12 (by decide) mX8_reads_f170 rfl rfl dX8_reads_81 ?_
          refine r_iconst G (v := 1) (by decide) dX8_reads_84 ?_
          refine r_iadd G dX8_reads_85 ?_
          refine r_put G (C := RX8) (T := TX8) (N := 19) kX8_reads_X8 tyX8 tyX8_ok nmX8 67 (mw_MO bd κ _) rfl 12 (by decide) mX8_reads_f170 rfl rfl (tyX8_ok 12 (by decide)) rfl rfl (Nat.le_of_ble_eq_true rfl) (mu_at bd κ _ _) dX8_reads_86 ?_
          refine r_aload_n G 0 rfl rfl dX8_reads_89 ?_
          refine r_bipush G (v := 61) (by decide) dX8_reads_90 ?_
          obtain ⟨o4, e4, h⟩ := ob h
          refine r_callVv G [.int 61] (qX8_expects hE (61 : Int32) _ e4) ⟨67, 8, _, _, rfl, (mw_MO bd κ _), rfl⟩ gX8_reads_X8_expects rfl hdX8_expects ⟨Nat.le_of_ble_eq_true rfl, Nat.le_of_ble_eq_true rfl⟩ (Nat.le_of_ble_eq_true rfl) rfl ⟨Nat.le_of_ble_eq_true rfl, Nat.le_of_ble_eq_true rfl⟩ rfl rfl dX8_reads_92 (fun s4 hp => ?_)
          have hp := hp.symm
          subst hp
          try dsimp only at h
          refine r_aload_n G 0 rfl rfl dX8_reads_95 ?_
          refine r_get G (C := RX8) (T := TX8) (N := 19) kX8_reads_X8 67 (mw_MO bd κ _) rfl 14 (by decide) mX8_reads_f164 rfl rfl dX8_reads_96 ?_
          refine r_if_ne G (tgt := 106) dX8_reads_99 (by decide) (fun c => ?_) (fun c => ?_)
          · rw [if_neg c] at h
            refine r_aload_n G 0 rfl rfl dX8_reads_106 ?_
            refine r_get G (C := RX8) (T := TX8) (N := 19) kX8_reads_X8 67 (mw_MO bd κ _) rfl 14 (by decide) mX8_reads_f164 rfl rfl dX8_reads_107 ?_
            refine r_if_ne G (tgt := 119) dX8_reads_110 (by decide) (fun c => ?_) (fun c => ?_)
            · rw [if_neg c] at h
              refine r_aload_n G 0 rfl rfl dX8_reads_119 ?_
              refine r_get G (C := RX8) (T := TX8) (N := 19) kX8_reads_X8 67 (mw_MO bd κ _) rfl 14 (by decide) mX8_reads_f164 rfl rfl dX8_reads_120 ?_
              refine r_if_ne G (tgt := 145) dX8_reads_123 (by decide) (fun c => ?_) (fun c => ?_)
              · rw [if_neg c] at h
                refine r_iinc G (j := 2) rfl (v := x2 + 1) (lv' := [(0, .ref (bd 67)), (1, .int x1), (2, .int (x2 + 1))]) rfl [1, 2, 0] rfl (by decide) dX8_reads_145 ?_
                refine r_goto G (tgt := 22) dX8_reads_148 (by decide) ?_
                exact ih _ _ h
              · rw [if_pos c] at h
                refine r_iload_n G 1 rfl rfl dX8_reads_126 ?_
                refine r_if_eq G (tgt := 145) dX8_reads_127 (by decide) (fun c => ?_) (fun c => ?_)
                · rw [if_pos c] at h
                  refine r_iinc G (j := 2) rfl (v := x2 + 1) (lv' := [(0, .ref (bd 67)), (1, .int x1), (2, .int (x2 + 1))]) rfl [1, 2, 0] rfl (by decide) dX8_reads_145 ?_
                  refine r_goto G (tgt := 22) dX8_reads_148 (by decide) ?_
                  exact ih _ _ h
                · rw [if_neg c] at h
                  refine r_aload_n G 0 rfl rfl dX8_reads_130 ?_
                  refine r_get G (C := RX8) (T := TX8) (N := 19) kX8_reads_X8 67 (mw_MO bd κ _) rfl 10 (by decide) mX8_reads_f47 rfl rfl dX8_reads_131 ?_
                  refine r_iconst G (v := 0) (by decide) dX8_reads_134 ?_
                  obtain ⟨g5, h⟩ := og h
                  refine r_aldA G 71 5 (mw_PILEG bd κ _) rfl (vin_in g5) rfl dX8_reads_135 ?_
                  refine r_aload_n G 0 rfl rfl dX8_reads_136 ?_
                  refine r_get G (C := RX8) (T := TX8) (N := 19) kX8_reads_X8 67 (mw_MO bd κ _) rfl 1 (by decide) mX8_reads_f27 rfl rfl dX8_reads_137 ?_
                  refine r_iload_n G 3 rfl rfl dX8_reads_140 ?_
                  obtain ⟨g6, h⟩ := og h
                  refine r_aldA G 68 5 (mw_SETSG bd κ _) rfl (vin_in g6) rfl dX8_reads_141 ?_
                  obtain ⟨o7, e7, h⟩ := ob h
                  refine r_callSv G [.ref (bd (24 + (0 : Int32).toNatClampNeg)), .ref (bd ((r2 - 97).toNatClampNeg))] (qX8_copies hE (24 + (0 : Int32).toNatClampNeg) (by have := vin_lt g5; omega) ((r2 - 97).toNatClampNeg) (by have := vin_lt g6; omega) _ e7) gX8_reads_X8_copies rfl hdX8_copies ⟨Nat.le_of_ble_eq_true rfl, Nat.le_of_ble_eq_true rfl⟩ (Nat.le_of_ble_eq_true rfl) rfl ⟨Nat.le_of_ble_eq_true rfl, Nat.le_of_ble_eq_true rfl⟩ rfl rfl dX8_reads_142 (fun s7 hp => ?_)
                  have hp := hp.symm
                  subst hp
                  try dsimp only at h
                  refine r_iinc G (j := 2) rfl (v := x2 + 1) (lv' := [(0, .ref (bd 67)), (1, .int x1), (2, .int (x2 + 1))]) rfl [1, 2, 0] rfl (by decide) dX8_reads_145 ?_
                  refine r_goto G (tgt := 22) dX8_reads_148 (by decide) ?_
                  exact ih _ _ h
            · rw [if_pos c] at h
              refine r_aload_n G 0 rfl rfl dX8_reads_113 ?_
              refine r_bipush G (v := 59) (by decide) dX8_reads_114 ?_
              obtain ⟨o8, e8, h⟩ := ob h
              refine r_callVv G [.int 59] (qX8_expects hE (59 : Int32) _ e8) ⟨67, 8, _, _, rfl, (mw_MO bd κ _), rfl⟩ gX8_reads_X8_expects rfl hdX8_expects ⟨Nat.le_of_ble_eq_true rfl, Nat.le_of_ble_eq_true rfl⟩ (Nat.le_of_ble_eq_true rfl) rfl ⟨Nat.le_of_ble_eq_true rfl, Nat.le_of_ble_eq_true rfl⟩ rfl rfl dX8_reads_116 (fun s8 hp => ?_)
              have hp := hp.symm
              subst hp
              try dsimp only at h
              refine r_aload_n G 0 rfl rfl dX8_reads_119 ?_
              refine r_get G (C := RX8) (T := TX8) (N := 19) kX8_reads_X8 67 (mw_MO bd κ _) rfl 14 (by decide) mX8_reads_f164 rfl rfl dX8_reads_120 ?_
              refine r_if_ne G (tgt := 145) dX8_reads_123 (by decide) (fun c => ?_) (fun c => ?_)
              · rw [if_neg c] at h
                refine r_iinc G (j := 2) rfl (v := x2 + 1) (lv' := [(0, .ref (bd 67)), (1, .int x1), (2, .int (x2 + 1))]) rfl [1, 2, 0] rfl (by decide) dX8_reads_145 ?_
                refine r_goto G (tgt := 22) dX8_reads_148 (by decide) ?_
                exact ih _ _ h
              · rw [if_pos c] at h
                refine r_iload_n G 1 rfl rfl dX8_reads_126 ?_
                refine r_if_eq G (tgt := 145) dX8_reads_127 (by decide) (fun c => ?_) (fun c => ?_)
                · rw [if_pos c] at h
                  refine r_iinc G (j := 2) rfl (v := x2 + 1) (lv' := [(0, .ref (bd 67)), (1, .int x1), (2, .int (x2 + 1))]) rfl [1, 2, 0] rfl (by decide) dX8_reads_145 ?_
                  refine r_goto G (tgt := 22) dX8_reads_148 (by decide) ?_
                  exact ih _ _ h
                · rw [if_neg c] at h
                  refine r_aload_n G 0 rfl rfl dX8_reads_130 ?_
                  refine r_get G (C := RX8) (T := TX8) (N := 19) kX8_reads_X8 67 (mw_MO bd κ _) rfl 10 (by decide) mX8_reads_f47 rfl rfl dX8_reads_131 ?_
                  refine r_iconst G (v := 0) (by decide) dX8_reads_134 ?_
                  obtain ⟨g9, h⟩ := og h
                  refine r_aldA G 71 5 (mw_PILEG bd κ _) rfl (vin_in g9) rfl dX8_reads_135 ?_
                  refine r_aload_n G 0 rfl rfl dX8_reads_136 ?_
                  refine r_get G (C := RX8) (T := TX8) (N := 19) kX8_reads_X8 67 (mw_MO bd κ _) rfl 1 (by decide) mX8_reads_f27 rfl rfl dX8_reads_137 ?_
                  refine r_iload_n G 3 rfl rfl dX8_reads_140 ?_
                  obtain ⟨g10, h⟩ := og h
                  refine r_aldA G 68 5 (mw_SETSG bd κ _) rfl (vin_in g10) rfl dX8_reads_141 ?_
                  obtain ⟨o11, e11, h⟩ := ob h
                  refine r_callSv G [.ref (bd (24 + (0 : Int32).toNatClampNeg)), .ref (bd ((r2 - 97).toNatClampNeg))] (qX8_copies hE (24 + (0 : Int32).toNatClampNeg) (by have := vin_lt g9; omega) ((r2 - 97).toNatClampNeg) (by have := vin_lt g10; omega) _ e11) gX8_reads_X8_copies rfl hdX8_copies ⟨Nat.le_of_ble_eq_true rfl, Nat.le_of_ble_eq_true rfl⟩ (Nat.le_of_ble_eq_true rfl) rfl ⟨Nat.le_of_ble_eq_true rfl, Nat.le_of_ble_eq_true rfl⟩ rfl rfl dX8_reads_142 (fun s11 hp => ?_)
                  have hp := hp.symm
                  subst hp
                  try dsimp only at h
                  refine r_iinc G (j := 2) rfl (v := x2 + 1) (lv' := [(0, .ref (bd 67)), (1, .int x1), (2, .int (x2 + 1))]) rfl [1, 2, 0] rfl (by decide) dX8_reads_145 ?_
                  refine r_goto G (tgt := 22) dX8_reads_148 (by decide) ?_
                  exact ih _ _ h
          · rw [if_pos c] at h
            refine r_aload_n G 0 rfl rfl dX8_reads_102 ?_
            obtain ⟨o12, e12, h⟩ := ob h
            refine r_callVv G [] (qX8_sumsD hE 10 _ _ e12) ⟨67, 8, _, _, rfl, (mw_MO bd κ _), rfl⟩ gX8_reads_X8_sums rfl hdX8_sums ⟨Nat.le_of_ble_eq_true rfl, Nat.le_of_ble_eq_true rfl⟩ (Nat.le_of_ble_eq_true rfl) rfl ⟨Nat.le_of_ble_eq_true rfl, Nat.le_of_ble_eq_true rfl⟩ rfl rfl dX8_reads_103 (fun s12 hp => ?_)
            have hp := hp.symm
            subst hp
            try dsimp only at h
            refine r_aload_n G 0 rfl rfl dX8_reads_106 ?_
            refine r_get G (C := RX8) (T := TX8) (N := 19) kX8_reads_X8 67 (mw_MO bd κ _) rfl 14 (by decide) mX8_reads_f164 rfl rfl dX8_reads_107 ?_
            refine r_if_ne G (tgt := 119) dX8_reads_110 (by decide) (fun c => ?_) (fun c => ?_)
            · rw [if_neg c] at h
              refine r_aload_n G 0 rfl rfl dX8_reads_119 ?_
              refine r_get G (C := RX8) (T := TX8) (N := 19) kX8_reads_X8 67 (mw_MO bd κ _) rfl 14 (by decide) mX8_reads_f164 rfl rfl dX8_reads_120 ?_
              refine r_if_ne G (tgt := 145) dX8_reads_123 (by decide) (fun c => ?_) (fun c => ?_)
              · rw [if_neg c] at h
                refine r_iinc G (j := 2) rfl (v := x2 + 1) (lv' := [(0, .ref (bd 67)), (1, .int x1), (2, .int (x2 + 1))]) rfl [1, 2, 0] rfl (by decide) dX8_reads_145 ?_
                refine r_goto G (tgt := 22) dX8_reads_148 (by decide) ?_
                exact ih _ _ h
              · rw [if_pos c] at h
                refine r_iload_n G 1 rfl rfl dX8_reads_126 ?_
                refine r_if_eq G (tgt := 145) dX8_reads_127 (by decide) (fun c => ?_) (fun c => ?_)
                · rw [if_pos c] at h
                  refine r_iinc G (j := 2) rfl (v := x2 + 1) (lv' := [(0, .ref (bd 67)), (1, .int x1), (2, .int (x2 + 1))]) rfl [1, 2, 0] rfl (by decide) dX8_reads_145 ?_
                  refine r_goto G (tgt := 22) dX8_reads_148 (by decide) ?_
                  exact ih _ _ h
                · rw [if_neg c] at h
                  refine r_aload_n G 0 rfl rfl dX8_reads_130 ?_
                  refine r_get G (C := RX8) (T := TX8) (N := 19) kX8_reads_X8 67 (mw_MO bd κ _) rfl 10 (by decide) mX8_reads_f47 rfl rfl dX8_reads_131 ?_
                  refine r_iconst G (v := 0) (by decide) dX8_reads_134 ?_
                  obtain ⟨g13, h⟩ := og h
                  refine r_aldA G 71 5 (mw_PILEG bd κ _) rfl (vin_in g13) rfl dX8_reads_135 ?_
                  refine r_aload_n G 0 rfl rfl dX8_reads_136 ?_
                  refine r_get G (C := RX8) (T := TX8) (N := 19) kX8_reads_X8 67 (mw_MO bd κ _) rfl 1 (by decide) mX8_reads_f27 rfl rfl dX8_reads_137 ?_
                  refine r_iload_n G 3 rfl rfl dX8_reads_140 ?_
                  obtain ⟨g14, h⟩ := og h
                  refine r_aldA G 68 5 (mw_SETSG bd κ _) rfl (vin_in g14) rfl dX8_reads_141 ?_
                  obtain ⟨o15, e15, h⟩ := ob h
                  refine r_callSv G [.ref (bd (24 + (0 : Int32).toNatClampNeg)), .ref (bd ((r2 - 97).toNatClampNeg))] (qX8_copies hE (24 + (0 : Int32).toNatClampNeg) (by have := vin_lt g13; omega) ((r2 - 97).toNatClampNeg) (by have := vin_lt g14; omega) _ e15) gX8_reads_X8_copies rfl hdX8_copies ⟨Nat.le_of_ble_eq_true rfl, Nat.le_of_ble_eq_true rfl⟩ (Nat.le_of_ble_eq_true rfl) rfl ⟨Nat.le_of_ble_eq_true rfl, Nat.le_of_ble_eq_true rfl⟩ rfl rfl dX8_reads_142 (fun s15 hp => ?_)
                  have hp := hp.symm
                  subst hp
                  try dsimp only at h
                  refine r_iinc G (j := 2) rfl (v := x2 + 1) (lv' := [(0, .ref (bd 67)), (1, .int x1), (2, .int (x2 + 1))]) rfl [1, 2, 0] rfl (by decide) dX8_reads_145 ?_
                  refine r_goto G (tgt := 22) dX8_reads_148 (by decide) ?_
                  exact ih _ _ h
            · rw [if_pos c] at h
              refine r_aload_n G 0 rfl rfl dX8_reads_113 ?_
              refine r_bipush G (v := 59) (by decide) dX8_reads_114 ?_
              obtain ⟨o16, e16, h⟩ := ob h
              refine r_callVv G [.int 59] (qX8_expects hE (59 : Int32) _ e16) ⟨67, 8, _, _, rfl, (mw_MO bd κ _), rfl⟩ gX8_reads_X8_expects rfl hdX8_expects ⟨Nat.le_of_ble_eq_true rfl, Nat.le_of_ble_eq_true rfl⟩ (Nat.le_of_ble_eq_true rfl) rfl ⟨Nat.le_of_ble_eq_true rfl, Nat.le_of_ble_eq_true rfl⟩ rfl rfl dX8_reads_116 (fun s16 hp => ?_)
              have hp := hp.symm
              subst hp
              try dsimp only at h
              refine r_aload_n G 0 rfl rfl dX8_reads_119 ?_
              refine r_get G (C := RX8) (T := TX8) (N := 19) kX8_reads_X8 67 (mw_MO bd κ _) rfl 14 (by decide) mX8_reads_f164 rfl rfl dX8_reads_120 ?_
              refine r_if_ne G (tgt := 145) dX8_reads_123 (by decide) (fun c => ?_) (fun c => ?_)
              · rw [if_neg c] at h
                refine r_iinc G (j := 2) rfl (v := x2 + 1) (lv' := [(0, .ref (bd 67)), (1, .int x1), (2, .int (x2 + 1))]) rfl [1, 2, 0] rfl (by decide) dX8_reads_145 ?_
                refine r_goto G (tgt := 22) dX8_reads_148 (by decide) ?_
                exact ih _ _ h
              · rw [if_pos c] at h
                refine r_iload_n G 1 rfl rfl dX8_reads_126 ?_
                refine r_if_eq G (tgt := 145) dX8_reads_127 (by decide) (fun c => ?_) (fun c => ?_)
                · rw [if_pos c] at h
                  refine r_iinc G (j := 2) rfl (v := x2 + 1) (lv' := [(0, .ref (bd 67)), (1, .int x1), (2, .int (x2 + 1))]) rfl [1, 2, 0] rfl (by decide) dX8_reads_145 ?_
                  refine r_goto G (tgt := 22) dX8_reads_148 (by decide) ?_
                  exact ih _ _ h
                · rw [if_neg c] at h
                  refine r_aload_n G 0 rfl rfl dX8_reads_130 ?_
                  refine r_get G (C := RX8) (T := TX8) (N := 19) kX8_reads_X8 67 (mw_MO bd κ _) rfl 10 (by decide) mX8_reads_f47 rfl rfl dX8_reads_131 ?_
                  refine r_iconst G (v := 0) (by decide) dX8_reads_134 ?_
                  obtain ⟨g17, h⟩ := og h
                  refine r_aldA G 71 5 (mw_PILEG bd κ _) rfl (vin_in g17) rfl dX8_reads_135 ?_
                  refine r_aload_n G 0 rfl rfl dX8_reads_136 ?_
                  refine r_get G (C := RX8) (T := TX8) (N := 19) kX8_reads_X8 67 (mw_MO bd κ _) rfl 1 (by decide) mX8_reads_f27 rfl rfl dX8_reads_137 ?_
                  refine r_iload_n G 3 rfl rfl dX8_reads_140 ?_
                  obtain ⟨g18, h⟩ := og h
                  refine r_aldA G 68 5 (mw_SETSG bd κ _) rfl (vin_in g18) rfl dX8_reads_141 ?_
                  obtain ⟨o19, e19, h⟩ := ob h
                  refine r_callSv G [.ref (bd (24 + (0 : Int32).toNatClampNeg)), .ref (bd ((r2 - 97).toNatClampNeg))] (qX8_copies hE (24 + (0 : Int32).toNatClampNeg) (by have := vin_lt g17; omega) ((r2 - 97).toNatClampNeg) (by have := vin_lt g18; omega) _ e19) gX8_reads_X8_copies rfl hdX8_copies ⟨Nat.le_of_ble_eq_true rfl, Nat.le_of_ble_eq_true rfl⟩ (Nat.le_of_ble_eq_true rfl) rfl ⟨Nat.le_of_ble_eq_true rfl, Nat.le_of_ble_eq_true rfl⟩ rfl rfl dX8_reads_142 (fun s19 hp => ?_)
                  have hp := hp.symm
                  subst hp
                  try dsimp only at h
                  refine r_iinc G (j := 2) rfl (v := x2 + 1) (lv' := [(0, .ref (bd 67)), (1, .int x1), (2, .int (x2 + 1))]) rfl [1, 2, 0] rfl (by decide) dX8_reads_145 ?_
                  refine r_goto G (tgt := 22) dX8_reads_148 (by decide) ?_
                  exact ih _ _ h
        · rw [if_pos c] at h
          refine r_aload_n G 0 rfl rfl dX8_reads_67 ?_
          refine r_iconst G (v := 1) (by decide) dX8_reads_68 ?_
          refine r_aload_n G 0 rfl rfl dX8_reads_69 ?_
          refine r_get G (C := RX8) (T := TX8) (N := 19) kX8_reads_X8 67 (mw_MO bd κ _) rfl 12 (by decide) mX8_reads_f170 rfl rfl dX8_reads_70 ?_
          obtain ⟨o20, e20, h⟩ := ob h
          refine r_callVv G [.int 1, .int (mI (vI s2 4 0) 5)] (qX8_fails hE (1 : Int32) (mI (vI s2 4 0) 5) _ e20) ⟨67, 8, _, _, rfl, (mw_MO bd κ _), rfl⟩ gX8_reads_X8_fails rfl hdX8_fails ⟨Nat.le_of_ble_eq_true rfl, Nat.le_of_ble_eq_true rfl⟩ (Nat.le_of_ble_eq_true rfl) rfl ⟨Nat.le_of_ble_eq_true rfl, Nat.le_of_ble_eq_true rfl⟩ rfl rfl dX8_reads_73 (fun s20 hp => ?_)
          have hp := hp.symm
          subst hp
          try dsimp only at h
          refine r_goto G (tgt := 95) dX8_reads_76 (by decide) ?_
          refine r_aload_n G 0 rfl rfl dX8_reads_95 ?_
          refine r_get G (C := RX8) (T := TX8) (N := 19) kX8_reads_X8 67 (mw_MO bd κ _) rfl 14 (by decide) mX8_reads_f164 rfl rfl dX8_reads_96 ?_
          refine r_if_ne G (tgt := 106) dX8_reads_99 (by decide) (fun c => ?_) (fun c => ?_)
          · rw [if_neg c] at h
            refine r_aload_n G 0 rfl rfl dX8_reads_106 ?_
            refine r_get G (C := RX8) (T := TX8) (N := 19) kX8_reads_X8 67 (mw_MO bd κ _) rfl 14 (by decide) mX8_reads_f164 rfl rfl dX8_reads_107 ?_
            refine r_if_ne G (tgt := 119) dX8_reads_110 (by decide) (fun c => ?_) (fun c => ?_)
            · rw [if_neg c] at h
              refine r_aload_n G 0 rfl rfl dX8_reads_119 ?_
              refine r_get G (C := RX8) (T := TX8) (N := 19) kX8_reads_X8 67 (mw_MO bd κ _) rfl 14 (by decide) mX8_reads_f164 rfl rfl dX8_reads_120 ?_
              refine r_if_ne G (tgt := 145) dX8_reads_123 (by decide) (fun c => ?_) (fun c => ?_)
              · rw [if_neg c] at h
                refine r_iinc G (j := 2) rfl (v := x2 + 1) (lv' := [(0, .ref (bd 67)), (1, .int x1), (2, .int (x2 + 1))]) rfl [1, 2, 0] rfl (by decide) dX8_reads_145 ?_
                refine r_goto G (tgt := 22) dX8_reads_148 (by decide) ?_
                exact ih _ _ h
              · rw [if_pos c] at h
                refine r_iload_n G 1 rfl rfl dX8_reads_126 ?_
                refine r_if_eq G (tgt := 145) dX8_reads_127 (by decide) (fun c => ?_) (fun c => ?_)
                · rw [if_pos c] at h
                  refine r_iinc G (j := 2) rfl (v := x2 + 1) (lv' := [(0, .ref (bd 67)), (1, .int x1), (2, .int (x2 + 1))]) rfl [1, 2, 0] rfl (by decide) dX8_reads_145 ?_
                  refine r_goto G (tgt := 22) dX8_reads_148 (by decide) ?_
                  exact ih _ _ h
                · rw [if_neg c] at h
                  refine r_aload_n G 0 rfl rfl dX8_reads_130 ?_
                  refine r_get G (C := RX8) (T := TX8) (N := 19) kX8_reads_X8 67 (mw_MO bd κ _) rfl 10 (by decide) mX8_reads_f47 rfl rfl dX8_reads_131 ?_
                  refine r_iconst G (v := 0) (by decide) dX8_reads_134 ?_
                  obtain ⟨g21, h⟩ := og h
                  refine r_aldA G 71 5 (mw_PILEG bd κ _) rfl (vin_in g21) rfl dX8_reads_135 ?_
                  refine r_aload_n G 0 rfl rfl dX8_reads_136 ?_
                  refine r_get G (C := RX8) (T := TX8) (N := 19) kX8_reads_X8 67 (mw_MO bd κ _) rfl 1 (by decide) mX8_reads_f27 rfl rfl dX8_reads_137 ?_
                  refine r_iload_n G 3 rfl rfl dX8_reads_140 ?_
                  obtain ⟨g22, h⟩ := og h
                  refine r_aldA G 68 5 (mw_SETSG bd κ _) rfl (vin_in g22) rfl dX8_reads_141 ?_
                  obtain ⟨o23, e23, h⟩ := ob h
                  refine r_callSv G [.ref (bd (24 + (0 : Int32).toNatClampNeg)), .ref (bd ((r2 - 97).toNatClampNeg))] (qX8_copies hE (24 + (0 : Int32).toNatClampNeg) (by have := vin_lt g21; omega) ((r2 - 97).toNatClampNeg) (by have := vin_lt g22; omega) _ e23) gX8_reads_X8_copies rfl hdX8_copies ⟨Nat.le_of_ble_eq_true rfl, Nat.le_of_ble_eq_true rfl⟩ (Nat.le_of_ble_eq_true rfl) rfl ⟨Nat.le_of_ble_eq_true rfl, Nat.le_of_ble_eq_true rfl⟩ rfl rfl dX8_reads_142 (fun s23 hp => ?_)
                  have hp := hp.symm
                  subst hp
                  try dsimp only at h
                  refine r_iinc G (j := 2) rfl (v := x2 + 1) (lv' := [(0, .ref (bd 67)), (1, .int x1), (2, .int (x2 + 1))]) rfl [1, 2, 0] rfl (by decide) dX8_reads_145 ?_
                  refine r_goto G (tgt := 22) dX8_reads_148 (by decide) ?_
                  exact ih _ _ h
            · rw [if_pos c] at h
              refine r_aload_n G 0 rfl rfl dX8_reads_113 ?_
              refine r_bipush G (v := 59) (by decide) dX8_reads_114 ?_
              obtain ⟨o24, e24, h⟩ := ob h
              refine r_callVv G [.int 59] (qX8_expects hE (59 : Int32) _ e24) ⟨67, 8, _, _, rfl, (mw_MO bd κ _), rfl⟩ gX8_reads_X8_expects rfl hdX8_expects ⟨Nat.le_of_ble_eq_true rfl, Nat.le_of_ble_eq_true rfl⟩ (Nat.le_of_ble_eq_true rfl) rfl ⟨Nat.le_of_ble_eq_true rfl, Nat.le_of_ble_eq_true rfl⟩ rfl rfl dX8_reads_116 (fun s24 hp => ?_)
              have hp := hp.symm
              subst hp
              try dsimp only at h
              refine r_aload_n G 0 rfl rfl dX8_reads_119 ?_
              refine r_get G (C := RX8) (T := TX8) (N := 19) kX8_reads_X8 67 (mw_MO bd κ _) rfl 14 (by decide) mX8_reads_f164 rfl rfl dX8_reads_120 ?_
              refine r_if_ne G (tgt := 145) dX8_reads_123 (by decide) (fun c => ?_) (fun c => ?_)
              · rw [if_neg c] at h
                refine r_iinc G (j := 2) rfl (v := x2 + 1) (lv' := [(0, .ref (bd 67)), (1, .int x1), (2, .int (x2 + 1))]) rfl [1, 2, 0] rfl (by decide) dX8_reads_145 ?_
                refine r_goto G (tgt := 22) dX8_reads_148 (by decide) ?_
                exact ih _ _ h
              · rw [if_pos c] at h
                refine r_iload_n G 1 rfl rfl dX8_reads_126 ?_
                refine r_if_eq G (tgt := 145) dX8_reads_127 (by decide) (fun c => ?_) (fun c => ?_)
                · rw [if_pos c] at h
                  refine r_iinc G (j := 2) rfl (v := x2 + 1) (lv' := [(0, .ref (bd 67)), (1, .int x1), (2, .int (x2 + 1))]) rfl [1, 2, 0] rfl (by decide) dX8_reads_145 ?_
                  refine r_goto G (tgt := 22) dX8_reads_148 (by decide) ?_
                  exact ih _ _ h
                · rw [if_neg c] at h
                  refine r_aload_n G 0 rfl rfl dX8_reads_130 ?_
                  refine r_get G (C := RX8) (T := TX8) (N := 19) kX8_reads_X8 67 (mw_MO bd κ _) rfl 10 (by decide) mX8_reads_f47 rfl rfl dX8_reads_131 ?_
                  refine r_iconst G (v := 0) (by decide) dX8_reads_134 ?_
                  obtain ⟨g25, h⟩ := og h
                  refine r_aldA G 71 5 (mw_PILEG bd κ _) rfl (vin_in g25) rfl dX8_reads_135 ?_
                  refine r_aload_n G 0 rfl rfl dX8_reads_136 ?_
                  refine r_get G (C := RX8) (T := TX8) (N := 19) kX8_reads_X8 67 (mw_MO bd κ _) rfl 1 (by decide) mX8_reads_f27 rfl rfl dX8_reads_137 ?_
                  refine r_iload_n G 3 rfl rfl dX8_reads_140 ?_
                  obtain ⟨g26, h⟩ := og h
                  refine r_aldA G 68 5 (mw_SETSG bd κ _) rfl (vin_in g26) rfl dX8_reads_141 ?_
                  obtain ⟨o27, e27, h⟩ := ob h
                  refine r_callSv G [.ref (bd (24 + (0 : Int32).toNatClampNeg)), .ref (bd ((r2 - 97).toNatClampNeg))] (qX8_copies hE (24 + (0 : Int32).toNatClampNeg) (by have := vin_lt g25; omega) ((r2 - 97).toNatClampNeg) (by have := vin_lt g26; omega) _ e27) gX8_reads_X8_copies rfl hdX8_copies ⟨Nat.le_of_ble_eq_true rfl, Nat.le_of_ble_eq_true rfl⟩ (Nat.le_of_ble_eq_true rfl) rfl ⟨Nat.le_of_ble_eq_true rfl, Nat.le_of_ble_eq_true rfl⟩ rfl rfl dX8_reads_142 (fun s27 hp => ?_)
                  have hp := hp.symm
                  subst hp
                  try dsimp only at h
                  refine r_iinc G (j := 2) rfl (v := x2 + 1) (lv' := [(0, .ref (bd 67)), (1, .int x1), (2, .int (x2 + 1))]) rfl [1, 2, 0] rfl (by decide) dX8_reads_145 ?_
                  refine r_goto G (tgt := 22) dX8_reads_148 (by decide) ?_
                  exact ih _ _ h
          · rw [if_pos c] at h
            refine r_aload_n G 0 rfl rfl dX8_reads_102 ?_
            obtain ⟨o28, e28, h⟩ := ob h
            refine r_callVv G [] (qX8_sumsD hE 10 _ _ e28) ⟨67, 8, _, _, rfl, (mw_MO bd κ _), rfl⟩ gX8_reads_X8_sums rfl hdX8_sums ⟨Nat.le_of_ble_eq_true rfl, Nat.le_of_ble_eq_true rfl⟩ (Nat.le_of_ble_eq_true rfl) rfl ⟨Nat.le_of_ble_eq_true rfl, Nat.le_of_ble_eq_true rfl⟩ rfl rfl dX8_reads_103 (fun s28 hp => ?_)
            have hp := hp.symm
            subst hp
            try dsimp only at h
            refine r_aload_n G 0 rfl rfl dX8_reads_106 ?_
            refine r_get G (C := RX8) (T := TX8) (N := 19) kX8_reads_X8 67 (mw_MO bd κ _) rfl 14 (by decide) mX8_reads_f164 rfl rfl dX8_reads_107 ?_
            refine r_if_ne G (tgt := 119) dX8_reads_110 (by decide) (fun c => ?_) (fun c => ?_)
            · rw [if_neg c] at h
              refine r_aload_n G 0 rfl rfl dX8_reads_119 ?_
              refine r_get G (C := RX8) (T := TX8) (N := 19) kX8_reads_X8 67 (mw_MO bd κ _) rfl 14 (by decide) mX8_reads_f164 rfl rfl dX8_reads_120 ?_
              refine r_if_ne G (tgt := 145) dX8_reads_123 (by decide) (fun c => ?_) (fun c => ?_)
              · rw [if_neg c] at h
                refine r_iinc G (j := 2) rfl (v := x2 + 1) (lv' := [(0, .ref (bd 67)), (1, .int x1), (2, .int (x2 + 1))]) rfl [1, 2, 0] rfl (by decide) dX8_reads_145 ?_
                refine r_goto G (tgt := 22) dX8_reads_148 (by decide) ?_
                exact ih _ _ h
              · rw [if_pos c] at h
                refine r_iload_n G 1 rfl rfl dX8_reads_126 ?_
                refine r_if_eq G (tgt := 145) dX8_reads_127 (by decide) (fun c => ?_) (fun c => ?_)
                · rw [if_pos c] at h
                  refine r_iinc G (j := 2) rfl (v := x2 + 1) (lv' := [(0, .ref (bd 67)), (1, .int x1), (2, .int (x2 + 1))]) rfl [1, 2, 0] rfl (by decide) dX8_reads_145 ?_
                  refine r_goto G (tgt := 22) dX8_reads_148 (by decide) ?_
                  exact ih _ _ h
                · rw [if_neg c] at h
                  refine r_aload_n G 0 rfl rfl dX8_reads_130 ?_
                  refine r_get G (C := RX8) (T := TX8) (N := 19) kX8_reads_X8 67 (mw_MO bd κ _) rfl 10 (by decide) mX8_reads_f47 rfl rfl dX8_reads_131 ?_
                  refine r_iconst G (v := 0) (by decide) dX8_reads_134 ?_
                  obtain ⟨g29, h⟩ := og h
                  refine r_aldA G 71 5 (mw_PILEG bd κ _) rfl (vin_in g29) rfl dX8_reads_135 ?_
                  refine r_aload_n G 0 rfl rfl dX8_reads_136 ?_
                  refine r_get G (C := RX8) (T := TX8) (N := 19) kX8_reads_X8 67 (mw_MO bd κ _) rfl 1 (by decide) mX8_reads_f27 rfl rfl dX8_reads_137 ?_
                  refine r_iload_n G 3 rfl rfl dX8_reads_140 ?_
                  obtain ⟨g30, h⟩ := og h
                  refine r_aldA G 68 5 (mw_SETSG bd κ _) rfl (vin_in g30) rfl dX8_reads_141 ?_
                  obtain ⟨o31, e31, h⟩ := ob h
                  refine r_callSv G [.ref (bd (24 + (0 : Int32).toNatClampNeg)), .ref (bd ((r2 - 97).toNatClampNeg))] (qX8_copies hE (24 + (0 : Int32).toNatClampNeg) (by have := vin_lt g29; omega) ((r2 - 97).toNatClampNeg) (by have := vin_lt g30; omega) _ e31) gX8_reads_X8_copies rfl hdX8_copies ⟨Nat.le_of_ble_eq_true rfl, Nat.le_of_ble_eq_true rfl⟩ (Nat.le_of_ble_eq_true rfl) rfl ⟨Nat.le_of_ble_eq_true rfl, Nat.le_of_ble_eq_true rfl⟩ rfl rfl dX8_reads_142 (fun s31 hp => ?_)
                  have hp := hp.symm
                  subst hp
                  try dsimp only at h
                  refine r_iinc G (j := 2) rfl (v := x2 + 1) (lv' := [(0, .ref (bd 67)), (1, .int x1), (2, .int (x2 + 1))]) rfl [1, 2, 0] rfl (by decide) dX8_reads_145 ?_
                  refine r_goto G (tgt := 22) dX8_reads_148 (by decide) ?_
                  exact ih _ _ h
            · rw [if_pos c] at h
              refine r_aload_n G 0 rfl rfl dX8_reads_113 ?_
              refine r_bipush G (v := 59) (by decide) dX8_reads_114 ?_
              obtain ⟨o32, e32, h⟩ := ob h
              refine r_callVv G [.int 59] (qX8_expects hE (59 : Int32) _ e32) ⟨67, 8, _, _, rfl, (mw_MO bd κ _), rfl⟩ gX8_reads_X8_expects rfl hdX8_expects ⟨Nat.le_of_ble_eq_true rfl, Nat.le_of_ble_eq_true rfl⟩ (Nat.le_of_ble_eq_true rfl) rfl ⟨Nat.le_of_ble_eq_true rfl, Nat.le_of_ble_eq_true rfl⟩ rfl rfl dX8_reads_116 (fun s32 hp => ?_)
              have hp := hp.symm
              subst hp
              try dsimp only at h
              refine r_aload_n G 0 rfl rfl dX8_reads_119 ?_
              refine r_get G (C := RX8) (T := TX8) (N := 19) kX8_reads_X8 67 (mw_MO bd κ _) rfl 14 (by decide) mX8_reads_f164 rfl rfl dX8_reads_120 ?_
              refine r_if_ne G (tgt := 145) dX8_reads_123 (by decide) (fun c => ?_) (fun c => ?_)
              · rw [if_neg c] at h
                refine r_iinc G (j := 2) rfl (v := x2 + 1) (lv' := [(0, .ref (bd 67)), (1, .int x1), (2, .int (x2 + 1))]) rfl [1, 2, 0] rfl (by decide) dX8_reads_145 ?_
                refine r_goto G (tgt := 22) dX8_reads_148 (by decide) ?_
                exact ih _ _ h
              · rw [if_pos c] at h
                refine r_iload_n G 1 rfl rfl dX8_reads_126 ?_
                refine r_if_eq G (tgt := 145) dX8_reads_127 (by decide) (fun c => ?_) (fun c => ?_)
                · rw [if_pos c] at h
                  refine r_iinc G (j := 2) rfl (v := x2 + 1) (lv' := [(0, .ref (bd 67)), (1, .int x1), (2, .int (x2 + 1))]) rfl [1, 2, 0] rfl (by decide) dX8_reads_145 ?_
                  refine r_goto G (tgt := 22) dX8_reads_148 (by decide) ?_
                  exact ih _ _ h
                · rw [if_neg c] at h
                  refine r_aload_n G 0 rfl rfl dX8_reads_130 ?_
                  refine r_get G (C := RX8) (T := TX8) (N := 19) kX8_reads_X8 67 (mw_MO bd κ _) rfl 10 (by decide) mX8_reads_f47 rfl rfl dX8_reads_131 ?_
                  refine r_iconst G (v := 0) (by decide) dX8_reads_134 ?_
                  obtain ⟨g33, h⟩ := og h
                  refine r_aldA G 71 5 (mw_PILEG bd κ _) rfl (vin_in g33) rfl dX8_reads_135 ?_
                  refine r_aload_n G 0 rfl rfl dX8_reads_136 ?_
                  refine r_get G (C := RX8) (T := TX8) (N := 19) kX8_reads_X8 67 (mw_MO bd κ _) rfl 1 (by decide) mX8_reads_f27 rfl rfl dX8_reads_137 ?_
                  refine r_iload_n G 3 rfl rfl dX8_reads_140 ?_
                  obtain ⟨g34, h⟩ := og h
                  refine r_aldA G 68 5 (mw_SETSG bd κ _) rfl (vin_in g34) rfl dX8_reads_141 ?_
                  obtain ⟨o35, e35, h⟩ := ob h
                  refine r_callSv G [.ref (bd (24 + (0 : Int32).toNatClampNeg)), .ref (bd ((r2 - 97).toNatClampNeg))] (qX8_copies hE (24 + (0 : Int32).toNatClampNeg) (by have := vin_lt g33; omega) ((r2 - 97).toNatClampNeg) (by have := vin_lt g34; omega) _ e35) gX8_reads_X8_copies rfl hdX8_copies ⟨Nat.le_of_ble_eq_true rfl, Nat.le_of_ble_eq_true rfl⟩ (Nat.le_of_ble_eq_true rfl) rfl ⟨Nat.le_of_ble_eq_true rfl, Nat.le_of_ble_eq_true rfl⟩ rfl rfl dX8_reads_142 (fun s35 hp => ?_)
                  have hp := hp.symm
                  subst hp
                  try dsimp only at h
                  refine r_iinc G (j := 2) rfl (v := x2 + 1) (lv' := [(0, .ref (bd 67)), (1, .int x1), (2, .int (x2 + 1))]) rfl [1, 2, 0] rfl (by decide) dX8_reads_145 ?_
                  refine r_goto G (tgt := 22) dX8_reads_148 (by decide) ?_
                  exact ih _ _ h
      · rw [if_pos c] at h
        refine r_aload_n G 0 rfl rfl dX8_reads_36 ?_
        refine r_get G (C := RX8) (T := TX8) (N := 19) kX8_reads_X8 67 (mw_MO bd κ _) rfl 12 (by decide) mX8_reads_f170 rfl rfl dX8_reads_37 ?_
        refine r_aload_n G 0 rfl rfl dX8_reads_40 ?_
        refine r_get G (C := RX8) (T := TX8) (N := 19) kX8_reads_X8 67 (mw_MO bd κ _) rfl 9 (by decide) mX8_reads_f141 rfl rfl dX8_reads_41 ?_
        refine r_icmp_ge G (tgt := 151) dX8_reads_44 (by decide) (fun c => ?_) (fun c => ?_)
        · rw [if_pos c] at h
          refine r_iload_n G 2 rfl rfl dX8_reads_151 ?_
          exact hret _ _ _ _ _ _ dX8_reads_152 (Option.some.inj h).symm rfl (Nat.le_of_ble_eq_true rfl) (Nat.le_of_ble_eq_true rfl)
        · rw [if_neg c] at h
          refine r_aload_n G 0 rfl rfl dX8_reads_47 ?_
          obtain ⟨o36, e36, h⟩ := ob h
          refine r_callVi G [] (qX8_sign hE _ e36) ⟨67, 8, _, _, rfl, (mw_MO bd κ _), rfl⟩ gX8_reads_X8_sign rfl hdX8_sign ⟨Nat.le_of_ble_eq_true rfl, Nat.le_of_ble_eq_true rfl⟩ (Nat.le_of_ble_eq_true rfl) rfl ⟨Nat.le_of_ble_eq_true rfl, Nat.le_of_ble_eq_true rfl⟩ rfl rfl dX8_reads_48 (fun r36 s36 hp hn36 => ?_)
          subst hp
          try dsimp only at h
          refine r_bipush G (v := 97) (by decide) dX8_reads_51 ?_
          refine r_isub G dX8_reads_53 ?_
          refine r_istore_n G (lv' := [(0, .ref (bd 67)), (1, .int x1), (2, .int x2), (3, .int (r36 - 97))]) [1, 2, 3, 0] rfl rfl (by decide) dX8_reads_54 ?_
          refine r_aload_n G 0 rfl rfl dX8_reads_55 ?_
          refine r_iconst G (v := 0) (by decide) dX8_reads_56 ?_
          refine r_put G (C := RX8) (T := TX8) (N := 19) kX8_reads_X8 tyX8 tyX8_ok nmX8 67 (mw_MO bd κ _) rfl 11 (by decide) mX8_reads_f200 rfl rfl (tyX8_ok 11 (by decide)) rfl rfl (Nat.le_of_ble_eq_true rfl) (mu_high bd κ _ _) dX8_reads_57 ?_
          refine r_iload_n G 3 rfl rfl dX8_reads_60 ?_
          refine r_callSi G [.int (r36 - 97)] (qX8_isSet hE (r36 - 97) _) gX8_reads_X8_isSet rfl hdX8_isSet ⟨Nat.le_of_ble_eq_true rfl, Nat.le_of_ble_eq_true rfl⟩ (Nat.le_of_ble_eq_true rfl) rfl ⟨Nat.le_of_ble_eq_true rfl, Nat.le_of_ble_eq_true rfl⟩ rfl rfl dX8_reads_61 (fun r37 s37 hp hn37 => ?_)
          obtain ⟨rfl, hs⟩ := hp
          have hs := hs.symm
          subst hs
          refine r_if_ne G (tgt := 79) dX8_reads_64 (by decide) (fun c => ?_) (fun c => ?_)
          · rw [if_neg c] at h
            refine r_aload_n G 0 rfl rfl dX8_reads_79 ?_
            refine r_dup G rfl dX8_reads_80 ?_
            refine r_get G (C := RX8) (T := TX8) (N := 19) kX8_reads_X8 67 (mw_MO bd κ _) rfl 12 (by decide) mX8_reads_f170 rfl rfl dX8_reads_81 ?_
            refine r_iconst G (v := 1) (by decide) dX8_reads_84 ?_
            refine r_iadd G dX8_reads_85 ?_
            refine r_put G (C := RX8) (T := TX8) (N := 19) kX8_reads_X8 tyX8 tyX8_ok nmX8 67 (mw_MO bd κ _) rfl 12 (by decide) mX8_reads_f170 rfl rfl (tyX8_ok 12 (by decide)) rfl rfl (Nat.le_of_ble_eq_true rfl) (mu_at bd κ _ _) dX8_reads_86 ?_
            refine r_aload_n G 0 rfl rfl dX8_reads_89 ?_
            refine r_bipush G (v := 61) (by decide) dX8_reads_90 ?_
            obtain ⟨o38, e38, h⟩ := ob h
            refine r_callVv G [.int 61] (qX8_expects hE (61 : Int32) _ e38) ⟨67, 8, _, _, rfl, (mw_MO bd κ _), rfl⟩ gX8_reads_X8_expects rfl hdX8_expects ⟨Nat.le_of_ble_eq_true rfl, Nat.le_of_ble_eq_true rfl⟩ (Nat.le_of_ble_eq_true rfl) rfl ⟨Nat.le_of_ble_eq_true rfl, Nat.le_of_ble_eq_true rfl⟩ rfl rfl dX8_reads_92 (fun s38 hp => ?_)
            have hp := hp.symm
            subst hp
            try dsimp only at h
            refine r_aload_n G 0 rfl rfl dX8_reads_95 ?_
            refine r_get G (C := RX8) (T := TX8) (N := 19) kX8_reads_X8 67 (mw_MO bd κ _) rfl 14 (by decide) mX8_reads_f164 rfl rfl dX8_reads_96 ?_
            refine r_if_ne G (tgt := 106) dX8_reads_99 (by decide) (fun c => ?_) (fun c => ?_)
            · rw [if_neg c] at h
              refine r_aload_n G 0 rfl rfl dX8_reads_106 ?_
              refine r_get G (C := RX8) (T := TX8) (N := 19) kX8_reads_X8 67 (mw_MO bd κ _) rfl 14 (by decide) mX8_reads_f164 rfl rfl dX8_reads_107 ?_
              refine r_if_ne G (tgt := 119) dX8_reads_110 (by decide) (fun c => ?_) (fun c => ?_)
              · rw [if_neg c] at h
                refine r_aload_n G 0 rfl rfl dX8_reads_119 ?_
                refine r_get G (C := RX8) (T := TX8) (N := 19) kX8_reads_X8 67 (mw_MO bd κ _) rfl 14 (by decide) mX8_reads_f164 rfl rfl dX8_reads_120 ?_
                refine r_if_ne G (tgt := 145) dX8_reads_123 (by decide) (fun c => ?_) (fun c => ?_)
                · rw [if_neg c] at h
                  refine r_iinc G (j := 2) rfl (v := x2 + 1) (lv' := [(0, .ref (bd 67)), (1, .int x1), (2, .int (x2 + 1))]) rfl [1, 2, 0] rfl (by decide) dX8_reads_145 ?_
                  refine r_goto G (tgt := 22) dX8_reads_148 (by decide) ?_
                  exact ih _ _ h
                · rw [if_pos c] at h
                  refine r_iload_n G 1 rfl rfl dX8_reads_126 ?_
                  refine r_if_eq G (tgt := 145) dX8_reads_127 (by decide) (fun c => ?_) (fun c => ?_)
                  · rw [if_pos c] at h
                    refine r_iinc G (j := 2) rfl (v := x2 + 1) (lv' := [(0, .ref (bd 67)), (1, .int x1), (2, .int (x2 + 1))]) rfl [1, 2, 0] rfl (by decide) dX8_reads_145 ?_
                    refine r_goto G (tgt := 22) dX8_reads_148 (by decide) ?_
                    exact ih _ _ h
                  · rw [if_neg c] at h
                    refine r_aload_n G 0 rfl rfl dX8_reads_130 ?_
                    refine r_get G (C := RX8) (T := TX8) (N := 19) kX8_reads_X8 67 (mw_MO bd κ _) rfl 10 (by decide) mX8_reads_f47 rfl rfl dX8_reads_131 ?_
                    refine r_iconst G (v := 0) (by decide) dX8_reads_134 ?_
                    obtain ⟨g39, h⟩ := og h
                    refine r_aldA G 71 5 (mw_PILEG bd κ _) rfl (vin_in g39) rfl dX8_reads_135 ?_
                    refine r_aload_n G 0 rfl rfl dX8_reads_136 ?_
                    refine r_get G (C := RX8) (T := TX8) (N := 19) kX8_reads_X8 67 (mw_MO bd κ _) rfl 1 (by decide) mX8_reads_f27 rfl rfl dX8_reads_137 ?_
                    refine r_iload_n G 3 rfl rfl dX8_reads_140 ?_
                    obtain ⟨g40, h⟩ := og h
                    refine r_aldA G 68 5 (mw_SETSG bd κ _) rfl (vin_in g40) rfl dX8_reads_141 ?_
                    obtain ⟨o41, e41, h⟩ := ob h
                    refine r_callSv G [.ref (bd (24 + (0 : Int32).toNatClampNeg)), .ref (bd ((r36 - 97).toNatClampNeg))] (qX8_copies hE (24 + (0 : Int32).toNatClampNeg) (by have := vin_lt g39; omega) ((r36 - 97).toNatClampNeg) (by have := vin_lt g40; omega) _ e41) gX8_reads_X8_copies rfl hdX8_copies ⟨Nat.le_of_ble_eq_true rfl, Nat.le_of_ble_eq_true rfl⟩ (Nat.le_of_ble_eq_true rfl) rfl ⟨Nat.le_of_ble_eq_true rfl, Nat.le_of_ble_eq_true rfl⟩ rfl rfl dX8_reads_142 (fun s41 hp => ?_)
                    have hp := hp.symm
                    subst hp
                    try dsimp only at h
                    refine r_iinc G (j := 2) rfl (v := x2 + 1) (lv' := [(0, .ref (bd 67)), (1, .int x1), (2, .int (x2 + 1))]) rfl [1, 2, 0] rfl (by decide) dX8_reads_145 ?_
                    refine r_goto G (tgt := 22) dX8_reads_148 (by decide) ?_
                    exact ih _ _ h
              · rw [if_pos c] at h
                refine r_aload_n G 0 rfl rfl dX8_reads_113 ?_
                refine r_bipush G (v := 59) (by decide) dX8_reads_114 ?_
                obtain ⟨o42, e42, h⟩ := ob h
                refine r_callVv G [.int 59] (qX8_expects hE (59 : Int32) _ e42) ⟨67, 8, _, _, rfl, (mw_MO bd κ _), rfl⟩ gX8_reads_X8_expects rfl hdX8_expects ⟨Nat.le_of_ble_eq_true rfl, Nat.le_of_ble_eq_true rfl⟩ (Nat.le_of_ble_eq_true rfl) rfl ⟨Nat.le_of_ble_eq_true rfl, Nat.le_of_ble_eq_true rfl⟩ rfl rfl dX8_reads_116 (fun s42 hp => ?_)
                have hp := hp.symm
                subst hp
                try dsimp only at h
                refine r_aload_n G 0 rfl rfl dX8_reads_119 ?_
                refine r_get G (C := RX8) (T := TX8) (N := 19) kX8_reads_X8 67 (mw_MO bd κ _) rfl 14 (by decide) mX8_reads_f164 rfl rfl dX8_reads_120 ?_
                refine r_if_ne G (tgt := 145) dX8_reads_123 (by decide) (fun c => ?_) (fun c => ?_)
                · rw [if_neg c] at h
                  refine r_iinc G (j := 2) rfl (v := x2 + 1) (lv' := [(0, .ref (bd 67)), (1, .int x1), (2, .int (x2 + 1))]) rfl [1, 2, 0] rfl (by decide) dX8_reads_145 ?_
                  refine r_goto G (tgt := 22) dX8_reads_148 (by decide) ?_
                  exact ih _ _ h
                · rw [if_pos c] at h
                  refine r_iload_n G 1 rfl rfl dX8_reads_126 ?_
                  refine r_if_eq G (tgt := 145) dX8_reads_127 (by decide) (fun c => ?_) (fun c => ?_)
                  · rw [if_pos c] at h
                    refine r_iinc G (j := 2) rfl (v := x2 + 1) (lv' := [(0, .ref (bd 67)), (1, .int x1), (2, .int (x2 + 1))]) rfl [1, 2, 0] rfl (by decide) dX8_reads_145 ?_
                    refine r_goto G (tgt := 22) dX8_reads_148 (by decide) ?_
                    exact ih _ _ h
                  · rw [if_neg c] at h
                    refine r_aload_n G 0 rfl rfl dX8_reads_130 ?_
                    refine r_get G (C := RX8) (T := TX8) (N := 19) kX8_reads_X8 67 (mw_MO bd κ _) rfl 10 (by decide) mX8_reads_f47 rfl rfl dX8_reads_131 ?_
                    refine r_iconst G (v := 0) (by decide) dX8_reads_134 ?_
                    obtain ⟨g43, h⟩ := og h
                    refine r_aldA G 71 5 (mw_PILEG bd κ _) rfl (vin_in g43) rfl dX8_reads_135 ?_
                    refine r_aload_n G 0 rfl rfl dX8_reads_136 ?_
                    refine r_get G (C := RX8) (T := TX8) (N := 19) kX8_reads_X8 67 (mw_MO bd κ _) rfl 1 (by decide) mX8_reads_f27 rfl rfl dX8_reads_137 ?_
                    refine r_iload_n G 3 rfl rfl dX8_reads_140 ?_
                    obtain ⟨g44, h⟩ := og h
                    refine r_aldA G 68 5 (mw_SETSG bd κ _) rfl (vin_in g44) rfl dX8_reads_141 ?_
                    obtain ⟨o45, e45, h⟩ := ob h
                    refine r_callSv G [.ref (bd (24 + (0 : Int32).toNatClampNeg)), .ref (bd ((r36 - 97).toNatClampNeg))] (qX8_copies hE (24 + (0 : Int32).toNatClampNeg) (by have := vin_lt g43; omega) ((r36 - 97).toNatClampNeg) (by have := vin_lt g44; omega) _ e45) gX8_reads_X8_copies rfl hdX8_copies ⟨Nat.le_of_ble_eq_true rfl, Nat.le_of_ble_eq_true rfl⟩ (Nat.le_of_ble_eq_true rfl) rfl ⟨Nat.le_of_ble_eq_true rfl, Nat.le_of_ble_eq_true rfl⟩ rfl rfl dX8_reads_142 (fun s45 hp => ?_)
                    have hp := hp.symm
                    subst hp
                    try dsimp only at h
                    refine r_iinc G (j := 2) rfl (v := x2 + 1) (lv' := [(0, .ref (bd 67)), (1, .int x1), (2, .int (x2 + 1))]) rfl [1, 2, 0] rfl (by decide) dX8_reads_145 ?_
                    refine r_goto G (tgt := 22) dX8_reads_148 (by decide) ?_
                    exact ih _ _ h
            · rw [if_pos c] at h
              refine r_aload_n G 0 rfl rfl dX8_reads_102 ?_
              obtain ⟨o46, e46, h⟩ := ob h
              refine r_callVv G [] (qX8_sumsD hE 10 _ _ e46) ⟨67, 8, _, _, rfl, (mw_MO bd κ _), rfl⟩ gX8_reads_X8_sums rfl hdX8_sums ⟨Nat.le_of_ble_eq_true rfl, Nat.le_of_ble_eq_true rfl⟩ (Nat.le_of_ble_eq_true rfl) rfl ⟨Nat.le_of_ble_eq_true rfl, Nat.le_of_ble_eq_true rfl⟩ rfl rfl dX8_reads_103 (fun s46 hp => ?_)
              have hp := hp.symm
              subst hp
              try dsimp only at h
              refine r_aload_n G 0 rfl rfl dX8_reads_106 ?_
              refine r_get G (C := RX8) (T := TX8) (N := 19) kX8_reads_X8 67 (mw_MO bd κ _) rfl 14 (by decide) mX8_reads_f164 rfl rfl dX8_reads_107 ?_
              refine r_if_ne G (tgt := 119) dX8_reads_110 (by decide) (fun c => ?_) (fun c => ?_)
              · rw [if_neg c] at h
                refine r_aload_n G 0 rfl rfl dX8_reads_119 ?_
                refine r_get G (C := RX8) (T := TX8) (N := 19) kX8_reads_X8 67 (mw_MO bd κ _) rfl 14 (by decide) mX8_reads_f164 rfl rfl dX8_reads_120 ?_
                refine r_if_ne G (tgt := 145) dX8_reads_123 (by decide) (fun c => ?_) (fun c => ?_)
                · rw [if_neg c] at h
                  refine r_iinc G (j := 2) rfl (v := x2 + 1) (lv' := [(0, .ref (bd 67)), (1, .int x1), (2, .int (x2 + 1))]) rfl [1, 2, 0] rfl (by decide) dX8_reads_145 ?_
                  refine r_goto G (tgt := 22) dX8_reads_148 (by decide) ?_
                  exact ih _ _ h
                · rw [if_pos c] at h
                  refine r_iload_n G 1 rfl rfl dX8_reads_126 ?_
                  refine r_if_eq G (tgt := 145) dX8_reads_127 (by decide) (fun c => ?_) (fun c => ?_)
                  · rw [if_pos c] at h
                    refine r_iinc G (j := 2) rfl (v := x2 + 1) (lv' := [(0, .ref (bd 67)), (1, .int x1), (2, .int (x2 + 1))]) rfl [1, 2, 0] rfl (by decide) dX8_reads_145 ?_
                    refine r_goto G (tgt := 22) dX8_reads_148 (by decide) ?_
                    exact ih _ _ h
                  · rw [if_neg c] at h
                    refine r_aload_n G 0 rfl rfl dX8_reads_130 ?_
                    refine r_get G (C := RX8) (T := TX8) (N := 19) kX8_reads_X8 67 (mw_MO bd κ _) rfl 10 (by decide) mX8_reads_f47 rfl rfl dX8_reads_131 ?_
                    refine r_iconst G (v := 0) (by decide) dX8_reads_134 ?_
                    obtain ⟨g47, h⟩ := og h
                    refine r_aldA G 71 5 (mw_PILEG bd κ _) rfl (vin_in g47) rfl dX8_reads_135 ?_
                    refine r_aload_n G 0 rfl rfl dX8_reads_136 ?_
                    refine r_get G (C := RX8) (T := TX8) (N := 19) kX8_reads_X8 67 (mw_MO bd κ _) rfl 1 (by decide) mX8_reads_f27 rfl rfl dX8_reads_137 ?_
                    refine r_iload_n G 3 rfl rfl dX8_reads_140 ?_
                    obtain ⟨g48, h⟩ := og h
                    refine r_aldA G 68 5 (mw_SETSG bd κ _) rfl (vin_in g48) rfl dX8_reads_141 ?_
                    obtain ⟨o49, e49, h⟩ := ob h
                    refine r_callSv G [.ref (bd (24 + (0 : Int32).toNatClampNeg)), .ref (bd ((r36 - 97).toNatClampNeg))] (qX8_copies hE (24 + (0 : Int32).toNatClampNeg) (by have := vin_lt g47; omega) ((r36 - 97).toNatClampNeg) (by have := vin_lt g48; omega) _ e49) gX8_reads_X8_copies rfl hdX8_copies ⟨Nat.le_of_ble_eq_true rfl, Nat.le_of_ble_eq_true rfl⟩ (Nat.le_of_ble_eq_true rfl) rfl ⟨Nat.le_of_ble_eq_true rfl, Nat.le_of_ble_eq_true rfl⟩ rfl rfl dX8_reads_142 (fun s49 hp => ?_)
                    have hp := hp.symm
                    subst hp
                    try dsimp only at h
                    refine r_iinc G (j := 2) rfl (v := x2 + 1) (lv' := [(0, .ref (bd 67)), (1, .int x1), (2, .int (x2 + 1))]) rfl [1, 2, 0] rfl (by decide) dX8_reads_145 ?_
                    refine r_goto G (tgt := 22) dX8_reads_148 (by decide) ?_
                    exact ih _ _ h
              · rw [if_pos c] at h
                refine r_aload_n G 0 rfl rfl dX8_reads_113 ?_
                refine r_bipush G (v := 59) (by decide) dX8_reads_114 ?_
                obtain ⟨o50, e50, h⟩ := ob h
                refine r_callVv G [.int 59] (qX8_expects hE (59 : Int32) _ e50) ⟨67, 8, _, _, rfl, (mw_MO bd κ _), rfl⟩ gX8_reads_X8_expects rfl hdX8_expects ⟨Nat.le_of_ble_eq_true rfl, Nat.le_of_ble_eq_true rfl⟩ (Nat.le_of_ble_eq_true rfl) rfl ⟨Nat.le_of_ble_eq_true rfl, Nat.le_of_ble_eq_true rfl⟩ rfl rfl dX8_reads_116 (fun s50 hp => ?_)
                have hp := hp.symm
                subst hp
                try dsimp only at h
                refine r_aload_n G 0 rfl rfl dX8_reads_119 ?_
                refine r_get G (C := RX8) (T := TX8) (N := 19) kX8_reads_X8 67 (mw_MO bd κ _) rfl 14 (by decide) mX8_reads_f164 rfl rfl dX8_reads_120 ?_
                refine r_if_ne G (tgt := 145) dX8_reads_123 (by decide) (fun c => ?_) (fun c => ?_)
                · rw [if_neg c] at h
                  refine r_iinc G (j := 2) rfl (v := x2 + 1) (lv' := [(0, .ref (bd 67)), (1, .int x1), (2, .int (x2 + 1))]) rfl [1, 2, 0] rfl (by decide) dX8_reads_145 ?_
                  refine r_goto G (tgt := 22) dX8_reads_148 (by decide) ?_
                  exact ih _ _ h
                · rw [if_pos c] at h
                  refine r_iload_n G 1 rfl rfl dX8_reads_126 ?_
                  refine r_if_eq G (tgt := 145) dX8_reads_127 (by decide) (fun c => ?_) (fun c => ?_)
                  · rw [if_pos c] at h
                    refine r_iinc G (j := 2) rfl (v := x2 + 1) (lv' := [(0, .ref (bd 67)), (1, .int x1), (2, .int (x2 + 1))]) rfl [1, 2, 0] rfl (by decide) dX8_reads_145 ?_
                    refine r_goto G (tgt := 22) dX8_reads_148 (by decide) ?_
                    exact ih _ _ h
                  · rw [if_neg c] at h
                    refine r_aload_n G 0 rfl rfl dX8_reads_130 ?_
                    refine r_get G (C := RX8) (T := TX8) (N := 19) kX8_reads_X8 67 (mw_MO bd κ _) rfl 10 (by decide) mX8_reads_f47 rfl rfl dX8_reads_131 ?_
                    refine r_iconst G (v := 0) (by decide) dX8_reads_134 ?_
                    obtain ⟨g51, h⟩ := og h
                    refine r_aldA G 71 5 (mw_PILEG bd κ _) rfl (vin_in g51) rfl dX8_reads_135 ?_
                    refine r_aload_n G 0 rfl rfl dX8_reads_136 ?_
                    refine r_get G (C := RX8) (T := TX8) (N := 19) kX8_reads_X8 67 (mw_MO bd κ _) rfl 1 (by decide) mX8_reads_f27 rfl rfl dX8_reads_137 ?_
                    refine r_iload_n G 3 rfl rfl dX8_reads_140 ?_
                    obtain ⟨g52, h⟩ := og h
                    refine r_aldA G 68 5 (mw_SETSG bd κ _) rfl (vin_in g52) rfl dX8_reads_141 ?_
                    obtain ⟨o53, e53, h⟩ := ob h
                    refine r_callSv G [.ref (bd (24 + (0 : Int32).toNatClampNeg)), .ref (bd ((r36 - 97).toNatClampNeg))] (qX8_copies hE (24 + (0 : Int32).toNatClampNeg) (by have := vin_lt g51; omega) ((r36 - 97).toNatClampNeg) (by have := vin_lt g52; omega) _ e53) gX8_reads_X8_copies rfl hdX8_copies ⟨Nat.le_of_ble_eq_true rfl, Nat.le_of_ble_eq_true rfl⟩ (Nat.le_of_ble_eq_true rfl) rfl ⟨Nat.le_of_ble_eq_true rfl, Nat.le_of_ble_eq_true rfl⟩ rfl rfl dX8_reads_142 (fun s53 hp => ?_)
                    have hp := hp.symm
                    subst hp
                    try dsimp only at h
                    refine r_iinc G (j := 2) rfl (v := x2 + 1) (lv' := [(0, .ref (bd 67)), (1, .int x1), (2, .int (x2 + 1))]) rfl [1, 2, 0] rfl (by decide) dX8_reads_145 ?_
                    refine r_goto G (tgt := 22) dX8_reads_148 (by decide) ?_
                    exact ih _ _ h
          · rw [if_pos c] at h
            refine r_aload_n G 0 rfl rfl dX8_reads_67 ?_
            refine r_iconst G (v := 1) (by decide) dX8_reads_68 ?_
            refine r_aload_n G 0 rfl rfl dX8_reads_69 ?_
            refine r_get G (C := RX8) (T := TX8) (N := 19) kX8_reads_X8 67 (mw_MO bd κ _) rfl 12 (by decide) mX8_reads_f170 rfl rfl dX8_reads_70 ?_
            obtain ⟨o54, e54, h⟩ := ob h
            refine r_callVv G [.int 1, .int (mI (vI s36 4 0) 5)] (qX8_fails hE (1 : Int32) (mI (vI s36 4 0) 5) _ e54) ⟨67, 8, _, _, rfl, (mw_MO bd κ _), rfl⟩ gX8_reads_X8_fails rfl hdX8_fails ⟨Nat.le_of_ble_eq_true rfl, Nat.le_of_ble_eq_true rfl⟩ (Nat.le_of_ble_eq_true rfl) rfl ⟨Nat.le_of_ble_eq_true rfl, Nat.le_of_ble_eq_true rfl⟩ rfl rfl dX8_reads_73 (fun s54 hp => ?_)
            have hp := hp.symm
            subst hp
            try dsimp only at h
            refine r_goto G (tgt := 95) dX8_reads_76 (by decide) ?_
            refine r_aload_n G 0 rfl rfl dX8_reads_95 ?_
            refine r_get G (C := RX8) (T := TX8) (N := 19) kX8_reads_X8 67 (mw_MO bd κ _) rfl 14 (by decide) mX8_reads_f164 rfl rfl dX8_reads_96 ?_
            refine r_if_ne G (tgt := 106) dX8_reads_99 (by decide) (fun c => ?_) (fun c => ?_)
            · rw [if_neg c] at h
              refine r_aload_n G 0 rfl rfl dX8_reads_106 ?_
              refine r_get G (C := RX8) (T := TX8) (N := 19) kX8_reads_X8 67 (mw_MO bd κ _) rfl 14 (by decide) mX8_reads_f164 rfl rfl dX8_reads_107 ?_
              refine r_if_ne G (tgt := 119) dX8_reads_110 (by decide) (fun c => ?_) (fun c => ?_)
              · rw [if_neg c] at h
                refine r_aload_n G 0 rfl rfl dX8_reads_119 ?_
                refine r_get G (C := RX8) (T := TX8) (N := 19) kX8_reads_X8 67 (mw_MO bd κ _) rfl 14 (by decide) mX8_reads_f164 rfl rfl dX8_reads_120 ?_
                refine r_if_ne G (tgt := 145) dX8_reads_123 (by decide) (fun c => ?_) (fun c => ?_)
                · rw [if_neg c] at h
                  refine r_iinc G (j := 2) rfl (v := x2 + 1) (lv' := [(0, .ref (bd 67)), (1, .int x1), (2, .int (x2 + 1))]) rfl [1, 2, 0] rfl (by decide) dX8_reads_145 ?_
                  refine r_goto G (tgt := 22) dX8_reads_148 (by decide) ?_
                  exact ih _ _ h
                · rw [if_pos c] at h
                  refine r_iload_n G 1 rfl rfl dX8_reads_126 ?_
                  refine r_if_eq G (tgt := 145) dX8_reads_127 (by decide) (fun c => ?_) (fun c => ?_)
                  · rw [if_pos c] at h
                    refine r_iinc G (j := 2) rfl (v := x2 + 1) (lv' := [(0, .ref (bd 67)), (1, .int x1), (2, .int (x2 + 1))]) rfl [1, 2, 0] rfl (by decide) dX8_reads_145 ?_
                    refine r_goto G (tgt := 22) dX8_reads_148 (by decide) ?_
                    exact ih _ _ h
                  · rw [if_neg c] at h
                    refine r_aload_n G 0 rfl rfl dX8_reads_130 ?_
                    refine r_get G (C := RX8) (T := TX8) (N := 19) kX8_reads_X8 67 (mw_MO bd κ _) rfl 10 (by decide) mX8_reads_f47 rfl rfl dX8_reads_131 ?_
                    refine r_iconst G (v := 0) (by decide) dX8_reads_134 ?_
                    obtain ⟨g55, h⟩ := og h
                    refine r_aldA G 71 5 (mw_PILEG bd κ _) rfl (vin_in g55) rfl dX8_reads_135 ?_
                    refine r_aload_n G 0 rfl rfl dX8_reads_136 ?_
                    refine r_get G (C := RX8) (T := TX8) (N := 19) kX8_reads_X8 67 (mw_MO bd κ _) rfl 1 (by decide) mX8_reads_f27 rfl rfl dX8_reads_137 ?_
                    refine r_iload_n G 3 rfl rfl dX8_reads_140 ?_
                    obtain ⟨g56, h⟩ := og h
                    refine r_aldA G 68 5 (mw_SETSG bd κ _) rfl (vin_in g56) rfl dX8_reads_141 ?_
                    obtain ⟨o57, e57, h⟩ := ob h
                    refine r_callSv G [.ref (bd (24 + (0 : Int32).toNatClampNeg)), .ref (bd ((r36 - 97).toNatClampNeg))] (qX8_copies hE (24 + (0 : Int32).toNatClampNeg) (by have := vin_lt g55; omega) ((r36 - 97).toNatClampNeg) (by have := vin_lt g56; omega) _ e57) gX8_reads_X8_copies rfl hdX8_copies ⟨Nat.le_of_ble_eq_true rfl, Nat.le_of_ble_eq_true rfl⟩ (Nat.le_of_ble_eq_true rfl) rfl ⟨Nat.le_of_ble_eq_true rfl, Nat.le_of_ble_eq_true rfl⟩ rfl rfl dX8_reads_142 (fun s57 hp => ?_)
                    have hp := hp.symm
                    subst hp
                    try dsimp only at h
                    refine r_iinc G (j := 2) rfl (v := x2 + 1) (lv' := [(0, .ref (bd 67)), (1, .int x1), (2, .int (x2 + 1))]) rfl [1, 2, 0] rfl (by decide) dX8_reads_145 ?_
                    refine r_goto G (tgt := 22) dX8_reads_148 (by decide) ?_
                    exact ih _ _ h
              · rw [if_pos c] at h
                refine r_aload_n G 0 rfl rfl dX8_reads_113 ?_
                refine r_bipush G (v := 59) (by decide) dX8_reads_114 ?_
                obtain ⟨o58, e58, h⟩ := ob h
                refine r_callVv G [.int 59] (qX8_expects hE (59 : Int32) _ e58) ⟨67, 8, _, _, rfl, (mw_MO bd κ _), rfl⟩ gX8_reads_X8_expects rfl hdX8_expects ⟨Nat.le_of_ble_eq_true rfl, Nat.le_of_ble_eq_true rfl⟩ (Nat.le_of_ble_eq_true rfl) rfl ⟨Nat.le_of_ble_eq_true rfl, Nat.le_of_ble_eq_true rfl⟩ rfl rfl dX8_reads_116 (fun s58 hp => ?_)
                have hp := hp.symm
                subst hp
                try dsimp only at h
                refine r_aload_n G 0 rfl rfl dX8_reads_119 ?_
                refine r_get G (C := RX8) (T := TX8) (N := 19) kX8_reads_X8 67 (mw_MO bd κ _) rfl 14 (by decide) mX8_reads_f164 rfl rfl dX8_reads_120 ?_
                refine r_if_ne G (tgt := 145) dX8_reads_123 (by decide) (fun c => ?_) (fun c => ?_)
                · rw [if_neg c] at h
                  refine r_iinc G (j := 2) rfl (v := x2 + 1) (lv' := [(0, .ref (bd 67)), (1, .int x1), (2, .int (x2 + 1))]) rfl [1, 2, 0] rfl (by decide) dX8_reads_145 ?_
                  refine r_goto G (tgt := 22) dX8_reads_148 (by decide) ?_
                  exact ih _ _ h
                · rw [if_pos c] at h
                  refine r_iload_n G 1 rfl rfl dX8_reads_126 ?_
                  refine r_if_eq G (tgt := 145) dX8_reads_127 (by decide) (fun c => ?_) (fun c => ?_)
                  · rw [if_pos c] at h
                    refine r_iinc G (j := 2) rfl (v := x2 + 1) (lv' := [(0, .ref (bd 67)), (1, .int x1), (2, .int (x2 + 1))]) rfl [1, 2, 0] rfl (by decide) dX8_reads_145 ?_
                    refine r_goto G (tgt := 22) dX8_reads_148 (by decide) ?_
                    exact ih _ _ h
                  · rw [if_neg c] at h
                    refine r_aload_n G 0 rfl rfl dX8_reads_130 ?_
                    refine r_get G (C := RX8) (T := TX8) (N := 19) kX8_reads_X8 67 (mw_MO bd κ _) rfl 10 (by decide) mX8_reads_f47 rfl rfl dX8_reads_131 ?_
                    refine r_iconst G (v := 0) (by decide) dX8_reads_134 ?_
                    obtain ⟨g59, h⟩ := og h
                    refine r_aldA G 71 5 (mw_PILEG bd κ _) rfl (vin_in g59) rfl dX8_reads_135 ?_
                    refine r_aload_n G 0 rfl rfl dX8_reads_136 ?_
                    refine r_get G (C := RX8) (T := TX8) (N := 19) kX8_reads_X8 67 (mw_MO bd κ _) rfl 1 (by decide) mX8_reads_f27 rfl rfl dX8_reads_137 ?_
                    refine r_iload_n G 3 rfl rfl dX8_reads_140 ?_
                    obtain ⟨g60, h⟩ := og h
                    refine r_aldA G 68 5 (mw_SETSG bd κ _) rfl (vin_in g60) rfl dX8_reads_141 ?_
                    obtain ⟨o61, e61, h⟩ := ob h
                    refine r_callSv G [.ref (bd (24 + (0 : Int32).toNatClampNeg)), .ref (bd ((r36 - 97).toNatClampNeg))] (qX8_copies hE (24 + (0 : Int32).toNatClampNeg) (by have := vin_lt g59; omega) ((r36 - 97).toNatClampNeg) (by have := vin_lt g60; omega) _ e61) gX8_reads_X8_copies rfl hdX8_copies ⟨Nat.le_of_ble_eq_true rfl, Nat.le_of_ble_eq_true rfl⟩ (Nat.le_of_ble_eq_true rfl) rfl ⟨Nat.le_of_ble_eq_true rfl, Nat.le_of_ble_eq_true rfl⟩ rfl rfl dX8_reads_142 (fun s61 hp => ?_)
                    have hp := hp.symm
                    subst hp
                    try dsimp only at h
                    refine r_iinc G (j := 2) rfl (v := x2 + 1) (lv' := [(0, .ref (bd 67)), (1, .int x1), (2, .int (x2 + 1))]) rfl [1, 2, 0] rfl (by decide) dX8_reads_145 ?_
                    refine r_goto G (tgt := 22) dX8_reads_148 (by decide) ?_
                    exact ih _ _ h
            · rw [if_pos c] at h
              refine r_aload_n G 0 rfl rfl dX8_reads_102 ?_
              obtain ⟨o62, e62, h⟩ := ob h
              refine r_callVv G [] (qX8_sumsD hE 10 _ _ e62) ⟨67, 8, _, _, rfl, (mw_MO bd κ _), rfl⟩ gX8_reads_X8_sums rfl hdX8_sums ⟨Nat.le_of_ble_eq_true rfl, Nat.le_of_ble_eq_true rfl⟩ (Nat.le_of_ble_eq_true rfl) rfl ⟨Nat.le_of_ble_eq_true rfl, Nat.le_of_ble_eq_true rfl⟩ rfl rfl dX8_reads_103 (fun s62 hp => ?_)
              have hp := hp.symm
              subst hp
              try dsimp only at h
              refine r_aload_n G 0 rfl rfl dX8_reads_106 ?_
              refine r_get G (C := RX8) (T := TX8) (N := 19) kX8_reads_X8 67 (mw_MO bd κ _) rfl 14 (by decide) mX8_reads_f164 rfl rfl dX8_reads_107 ?_
              refine r_if_ne G (tgt := 119) dX8_reads_110 (by decide) (fun c => ?_) (fun c => ?_)
              · rw [if_neg c] at h
                refine r_aload_n G 0 rfl rfl dX8_reads_119 ?_
                refine r_get G (C := RX8) (T := TX8) (N := 19) kX8_reads_X8 67 (mw_MO bd κ _) rfl 14 (by decide) mX8_reads_f164 rfl rfl dX8_reads_120 ?_
                refine r_if_ne G (tgt := 145) dX8_reads_123 (by decide) (fun c => ?_) (fun c => ?_)
                · rw [if_neg c] at h
                  refine r_iinc G (j := 2) rfl (v := x2 + 1) (lv' := [(0, .ref (bd 67)), (1, .int x1), (2, .int (x2 + 1))]) rfl [1, 2, 0] rfl (by decide) dX8_reads_145 ?_
                  refine r_goto G (tgt := 22) dX8_reads_148 (by decide) ?_
                  exact ih _ _ h
                · rw [if_pos c] at h
                  refine r_iload_n G 1 rfl rfl dX8_reads_126 ?_
                  refine r_if_eq G (tgt := 145) dX8_reads_127 (by decide) (fun c => ?_) (fun c => ?_)
                  · rw [if_pos c] at h
                    refine r_iinc G (j := 2) rfl (v := x2 + 1) (lv' := [(0, .ref (bd 67)), (1, .int x1), (2, .int (x2 + 1))]) rfl [1, 2, 0] rfl (by decide) dX8_reads_145 ?_
                    refine r_goto G (tgt := 22) dX8_reads_148 (by decide) ?_
                    exact ih _ _ h
                  · rw [if_neg c] at h
                    refine r_aload_n G 0 rfl rfl dX8_reads_130 ?_
                    refine r_get G (C := RX8) (T := TX8) (N := 19) kX8_reads_X8 67 (mw_MO bd κ _) rfl 10 (by decide) mX8_reads_f47 rfl rfl dX8_reads_131 ?_
                    refine r_iconst G (v := 0) (by decide) dX8_reads_134 ?_
                    obtain ⟨g63, h⟩ := og h
                    refine r_aldA G 71 5 (mw_PILEG bd κ _) rfl (vin_in g63) rfl dX8_reads_135 ?_
                    refine r_aload_n G 0 rfl rfl dX8_reads_136 ?_
                    refine r_get G (C := RX8) (T := TX8) (N := 19) kX8_reads_X8 67 (mw_MO bd κ _) rfl 1 (by decide) mX8_reads_f27 rfl rfl dX8_reads_137 ?_
                    refine r_iload_n G 3 rfl rfl dX8_reads_140 ?_
                    obtain ⟨g64, h⟩ := og h
                    refine r_aldA G 68 5 (mw_SETSG bd κ _) rfl (vin_in g64) rfl dX8_reads_141 ?_
                    obtain ⟨o65, e65, h⟩ := ob h
                    refine r_callSv G [.ref (bd (24 + (0 : Int32).toNatClampNeg)), .ref (bd ((r36 - 97).toNatClampNeg))] (qX8_copies hE (24 + (0 : Int32).toNatClampNeg) (by have := vin_lt g63; omega) ((r36 - 97).toNatClampNeg) (by have := vin_lt g64; omega) _ e65) gX8_reads_X8_copies rfl hdX8_copies ⟨Nat.le_of_ble_eq_true rfl, Nat.le_of_ble_eq_true rfl⟩ (Nat.le_of_ble_eq_true rfl) rfl ⟨Nat.le_of_ble_eq_true rfl, Nat.le_of_ble_eq_true rfl⟩ rfl rfl dX8_reads_142 (fun s65 hp => ?_)
                    have hp := hp.symm
                    subst hp
                    try dsimp only at h
                    refine r_iinc G (j := 2) rfl (v := x2 + 1) (lv' := [(0, .ref (bd 67)), (1, .int x1), (2, .int (x2 + 1))]) rfl [1, 2, 0] rfl (by decide) dX8_reads_145 ?_
                    refine r_goto G (tgt := 22) dX8_reads_148 (by decide) ?_
                    exact ih _ _ h
              · rw [if_pos c] at h
                refine r_aload_n G 0 rfl rfl dX8_reads_113 ?_
                refine r_bipush G (v := 59) (by decide) dX8_reads_114 ?_
                obtain ⟨o66, e66, h⟩ := ob h
                refine r_callVv G [.int 59] (qX8_expects hE (59 : Int32) _ e66) ⟨67, 8, _, _, rfl, (mw_MO bd κ _), rfl⟩ gX8_reads_X8_expects rfl hdX8_expects ⟨Nat.le_of_ble_eq_true rfl, Nat.le_of_ble_eq_true rfl⟩ (Nat.le_of_ble_eq_true rfl) rfl ⟨Nat.le_of_ble_eq_true rfl, Nat.le_of_ble_eq_true rfl⟩ rfl rfl dX8_reads_116 (fun s66 hp => ?_)
                have hp := hp.symm
                subst hp
                try dsimp only at h
                refine r_aload_n G 0 rfl rfl dX8_reads_119 ?_
                refine r_get G (C := RX8) (T := TX8) (N := 19) kX8_reads_X8 67 (mw_MO bd κ _) rfl 14 (by decide) mX8_reads_f164 rfl rfl dX8_reads_120 ?_
                refine r_if_ne G (tgt := 145) dX8_reads_123 (by decide) (fun c => ?_) (fun c => ?_)
                · rw [if_neg c] at h
                  refine r_iinc G (j := 2) rfl (v := x2 + 1) (lv' := [(0, .ref (bd 67)), (1, .int x1), (2, .int (x2 + 1))]) rfl [1, 2, 0] rfl (by decide) dX8_reads_145 ?_
                  refine r_goto G (tgt := 22) dX8_reads_148 (by decide) ?_
                  exact ih _ _ h
                · rw [if_pos c] at h
                  refine r_iload_n G 1 rfl rfl dX8_reads_126 ?_
                  refine r_if_eq G (tgt := 145) dX8_reads_127 (by decide) (fun c => ?_) (fun c => ?_)
                  · rw [if_pos c] at h
                    refine r_iinc G (j := 2) rfl (v := x2 + 1) (lv' := [(0, .ref (bd 67)), (1, .int x1), (2, .int (x2 + 1))]) rfl [1, 2, 0] rfl (by decide) dX8_reads_145 ?_
                    refine r_goto G (tgt := 22) dX8_reads_148 (by decide) ?_
                    exact ih _ _ h
                  · rw [if_neg c] at h
                    refine r_aload_n G 0 rfl rfl dX8_reads_130 ?_
                    refine r_get G (C := RX8) (T := TX8) (N := 19) kX8_reads_X8 67 (mw_MO bd κ _) rfl 10 (by decide) mX8_reads_f47 rfl rfl dX8_reads_131 ?_
                    refine r_iconst G (v := 0) (by decide) dX8_reads_134 ?_
                    obtain ⟨g67, h⟩ := og h
                    refine r_aldA G 71 5 (mw_PILEG bd κ _) rfl (vin_in g67) rfl dX8_reads_135 ?_
                    refine r_aload_n G 0 rfl rfl dX8_reads_136 ?_
                    refine r_get G (C := RX8) (T := TX8) (N := 19) kX8_reads_X8 67 (mw_MO bd κ _) rfl 1 (by decide) mX8_reads_f27 rfl rfl dX8_reads_137 ?_
                    refine r_iload_n G 3 rfl rfl dX8_reads_140 ?_
                    obtain ⟨g68, h⟩ := og h
                    refine r_aldA G 68 5 (mw_SETSG bd κ _) rfl (vin_in g68) rfl dX8_reads_141 ?_
                    obtain ⟨o69, e69, h⟩ := ob h
                    refine r_callSv G [.ref (bd (24 + (0 : Int32).toNatClampNeg)), .ref (bd ((r36 - 97).toNatClampNeg))] (qX8_copies hE (24 + (0 : Int32).toNatClampNeg) (by have := vin_lt g67; omega) ((r36 - 97).toNatClampNeg) (by have := vin_lt g68; omega) _ e69) gX8_reads_X8_copies rfl hdX8_copies ⟨Nat.le_of_ble_eq_true rfl, Nat.le_of_ble_eq_true rfl⟩ (Nat.le_of_ble_eq_true rfl) rfl ⟨Nat.le_of_ble_eq_true rfl, Nat.le_of_ble_eq_true rfl⟩ rfl rfl dX8_reads_142 (fun s69 hp => ?_)
                    have hp := hp.symm
                    subst hp
                    try dsimp only at h
                    refine r_iinc G (j := 2) rfl (v := x2 + 1) (lv' := [(0, .ref (bd 67)), (1, .int x1), (2, .int (x2 + 1))]) rfl [1, 2, 0] rfl (by decide) dX8_reads_145 ?_
                    refine r_goto G (tgt := 22) dX8_reads_148 (by decide) ?_
                    exact ih _ _ h
set_option maxHeartbeats 4000000 in
set_option maxRecDepth 100000 in
theorem qX8_reads {E : evT} {l : Launch} {D : va_G} {bd : Nat → Nat} {κ : Nat → ClassId} (hE : EvOk E) (p0 : Int32) (s : mS) {o : (Int32 × mS)} (h : fX8_reads p0 s = some o) : Ci l yX8_reads wsX8_reads rmX8_reads (mW bd κ) E D (tyA κ) .int [.ref (bd 67), .int p0] s (fun r s2 => o = (r, s2)) := by
  rw [fX8_reads] at h
  refine s_i (cc := cX8_reads) (nL := 4) (own := RX8) hE (mW_WA bd κ) (plainFor_of_name (by decide)) rfl rfl (Nat.le_of_ble_eq_true rfl) (fun Γ G hret => ?_)
  refine r_aload_n G 0 rfl rfl dX8_reads_0 ?_
  refine r_iconst G (v := 0) (by decide) dX8_reads_1 ?_
  refine r_put G (C := RX8) (T := TX8) (N := 19) kX8_reads_X8 tyX8 tyX8_ok nmX8 67 (mw_MO bd κ _) rfl 14 (by decide) mX8_reads_f164 rfl rfl (tyX8_ok 14 (by decide)) rfl rfl (Nat.le_of_ble_eq_true rfl) (mu_errorKind bd κ _ _) dX8_reads_2 ?_
  refine r_aload_n G 0 rfl rfl dX8_reads_5 ?_
  refine r_iconst G (v := (-1)) (by decide) dX8_reads_6 ?_
  refine r_put G (C := RX8) (T := TX8) (N := 19) kX8_reads_X8 tyX8 tyX8_ok nmX8 67 (mw_MO bd κ _) rfl 15 (by decide) mX8_reads_f167 rfl rfl (tyX8_ok 15 (by decide)) rfl rfl (Nat.le_of_ble_eq_true rfl) (mu_errorPlace bd κ _ _) dX8_reads_7 ?_
  refine r_aload_n G 0 rfl rfl dX8_reads_10 ?_
  refine r_iconst G (v := 0) (by decide) dX8_reads_11 ?_
  refine r_put G (C := RX8) (T := TX8) (N := 19) kX8_reads_X8 tyX8 tyX8_ok nmX8 67 (mw_MO bd κ _) rfl 12 (by decide) mX8_reads_f170 rfl rfl (tyX8_ok 12 (by decide)) rfl rfl (Nat.le_of_ble_eq_true rfl) (mu_at bd κ _ _) dX8_reads_12 ?_
  refine r_aload_n G 0 rfl rfl dX8_reads_15 ?_
  refine r_iconst G (v := 0) (by decide) dX8_reads_16 ?_
  refine r_put G (C := RX8) (T := TX8) (N := 19) kX8_reads_X8 tyX8 tyX8_ok nmX8 67 (mw_MO bd κ _) rfl 13 (by decide) mX8_reads_f206 rfl rfl (tyX8_ok 13 (by decide)) rfl rfl (Nat.le_of_ble_eq_true rfl) (mu_open bd κ _ _) dX8_reads_17 ?_
  refine r_iconst G (v := 0) (by decide) dX8_reads_20 ?_
  refine r_istore_n G (lv' := [(0, .ref (bd 67)), (1, .int p0), (2, .int 0)]) [1, 2, 0] rfl rfl (by decide) dX8_reads_21 ?_
  refine wX8_reads_L22 hE G _ hret 1100 _ _ h
