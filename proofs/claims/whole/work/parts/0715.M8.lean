abbrev rmX8_exampleOf : Room := { frames := 0, cells := 0, slots := 0, locals := 0 }
set_option maxHeartbeats 4000000 in
set_option maxRecDepth 100000 in
theorem qX8_exampleOf {E : evT} {l : Launch} {D : va_G} {bd : Nat → Nat} {κ : Nat → ClassId} (hE : EvOk E) {kK kV : Nat → Nat} (hSt : SOk E kK kV) (p0 : Int32) (s : mS) {o : (Nat × mS)} (h : fX8_exampleOf p0 s = some o) : Cr l yX8_exampleOf wsX8_exampleOf rmX8_exampleOf (mW bd κ) E D (tyA κ) kK [.int p0] s (fun r s2 => o = (r, s2)) := by
  rw [fX8_exampleOf] at h
  refine s_r (cc := cX8_exampleOf) (nL := 1) (own := RX8) hE (mW_WA bd κ) (by decide) rfl rfl (Nat.le_of_ble_eq_true rfl) (fun Γ G hret => ?_)
  refine r_iload_n G 0 rfl rfl dX8_exampleOf_0 ?_
  refine r_if_ne G (tgt := 7) dX8_exampleOf_1 (by decide) (fun c => ?_) (fun c => ?_)
  · rw [if_neg c] at h
    refine r_iload_n G 0 rfl rfl dX8_exampleOf_7 ?_
    refine r_iconst G (v := 1) (by decide) dX8_exampleOf_8 ?_
    refine r_icmp_ne G (tgt := 17) dX8_exampleOf_9 (by decide) (fun c => ?_) (fun c => ?_)
    · rw [if_neg c] at h
      refine r_ldcS G (hSt _ _ _ G.ev).2.2.2.2.2.2 dX8_exampleOf_17 ?_
      exact hret _ _ _ _ _ _ dX8_exampleOf_19 (Option.some.inj h).symm (Nat.le_of_ble_eq_true rfl) (Nat.le_of_ble_eq_true rfl)
    · rw [if_pos c] at h
      refine r_ldcS G (hSt _ _ _ G.ev).2.2.2.2.2.1 dX8_exampleOf_12 ?_
      refine r_goto G (tgt := 19) dX8_exampleOf_14 (by decide) ?_
      exact hret _ _ _ _ _ _ dX8_exampleOf_19 (Option.some.inj h).symm (Nat.le_of_ble_eq_true rfl) (Nat.le_of_ble_eq_true rfl)
  · rw [if_pos c] at h
    refine r_ldcS G (hSt _ _ _ G.ev).2.2.2.2.1 dX8_exampleOf_4 ?_
    exact hret _ _ _ _ _ _ dX8_exampleOf_6 (Option.some.inj h).symm (Nat.le_of_ble_eq_true rfl) (Nat.le_of_ble_eq_true rfl)
abbrev rmX8_example : Room := { frames := 5, cells := 0, slots := 0, locals := 161 }
theorem hdX8_exampleOf : yX8_exampleOf.cls ≠ "java/lang/invoke/MethodHandle" ∧ yX8_exampleOf.cls ≠ "java/lang/invoke/VarHandle" ∧ (parseMethodDescriptor yX8_exampleOf.desc).map (fun d => d.parameters.length) = some 1 := by decide +kernel
set_option maxRecDepth 20000 in
theorem kX8_example_X8 : ∀ w ∈ u_ws RX8 TX8 19, w ∈ wsX8_example := by decide +kernel
set_option maxRecDepth 20000 in
theorem mX8_example_f43 : Cond.fieldLink RX8 43 "SetCouncilModel" "text" "[I" ∈ wsX8_example := by decide +kernel
set_option maxHeartbeats 4000000 in
set_option maxRecDepth 100000 in
theorem wX8_example_L23 {E : evT} {l : Launch} {D : va_G} {bd : Nat → Nat} {κ : Nat → ClassId} (hE : EvOk E) {kK kV : Nat → Nat} (hSt : SOk E kK kV) {Γ : cxT} (G : Cx (mW bd κ) D (tyA κ) E l Γ cX8_example RX8 wsX8_example 4 rmX8_example) (z2 : Nat) (hz2 : z2 < 3) {o : (Int32 × mS)} (hret : ∀ (st2 : mS) (v : Int32) (cells slots pc : Nat) (lv : List (Nat × Value)), decode cX8_example pc = .ok (.ireturn, 1) → o = (v, st2) → narrow .int (.int v) = .int v → cells ≤ rmX8_example.cells → slots ≤ rmX8_example.slots → V (mW bd κ) D Γ st2 cells slots pc lv [.int v]) {k0 : mS → Option (Int32 × mS)} (hk0 : ∀ (s : mS), k0 s = some o → V (mW bd κ) D Γ s 0 0 48 [(0, .ref (bd 67)), (2, .ref (kK z2))] []) : ∀ (fuel : Nat) (x3 : Int32) (s : mS), fX8_example_L23 z2 k0 fuel x3 s = some o → V (mW bd κ) D Γ s 0 0 23 [(0, .ref (bd 67)), (2, .ref (kK z2)), (3, .int x3)] [] := by
  intro fuel
  induction fuel with
  | zero =>
    intro _ _ h
    have h : none = some o := h
    cases h
  | succ fuel ih =>
    intro x3 s h
    rw [fX8_example_L23] at h
    refine r_iload_n G 2 rfl rfl dX8_example_23 ?_
    refine r_aload_n G 1 rfl rfl dX8_example_24 ?_
    refine r_strlen G hSt hz2 gX8_example_J0_length_8abf5 ⟨(Nat.le_of_ble_eq_true rfl), (Nat.le_of_ble_eq_true rfl)⟩ (Nat.le_of_ble_eq_true rfl) ⟨(Nat.le_of_ble_eq_true rfl), (Nat.le_of_ble_eq_true rfl)⟩ dX8_example_25 ?_
    refine r_icmp_ge G (tgt := 48) dX8_example_28 (by decide) (fun c => ?_) (fun c => ?_)
    · rw [if_pos c] at h
      refine V.sub (lv' := [(0, .ref (bd 67)), (2, .ref (kK z2))]) [0, 1] rfl ?_
      exact hk0 _ h
    · rw [if_neg c] at h
      refine r_aload_n G 0 rfl rfl dX8_example_31 ?_
      refine r_get G (C := RX8) (T := TX8) (N := 19) kX8_example_X8 67 (mw_MO bd κ _) rfl 8 (by decide) mX8_example_f43 rfl rfl dX8_example_32 ?_
      refine r_iload_n G 2 rfl rfl dX8_example_35 ?_
      refine r_aload_n G 1 rfl rfl dX8_example_36 ?_
      refine r_iload_n G 2 rfl rfl dX8_example_37 ?_
      obtain ⟨g5, h⟩ := og h
      refine r_strat G hSt hz2 g5 gX8_example_J0_charAt_5068e ⟨(Nat.le_of_ble_eq_true rfl), (Nat.le_of_ble_eq_true rfl)⟩ (Nat.le_of_ble_eq_true rfl) ⟨(Nat.le_of_ble_eq_true rfl), (Nat.le_of_ble_eq_true rfl)⟩ dX8_example_38 ?_
      obtain ⟨g6, h⟩ := og h
      refine r_iast G 72 3 (mw_MTEXT bd κ _) rfl (vin_in g6) (mu_TEXT bd κ _ _ _) dX8_example_41 ?_
      refine r_iinc G (j := 2) rfl (v := x3 + 1) (lv' := [(0, .ref (bd 67)), (2, .ref (kK z2)), (3, .int (x3 + 1))]) rfl [1, 2, 0] rfl (by decide) dX8_example_42 ?_
      refine r_goto G (tgt := 23) dX8_example_45 (by decide) ?_
      exact ih _ _ h
set_option maxRecDepth 20000 in
theorem mX8_example_f141 : Cond.fieldLink RX8 141 "SetCouncilModel" "textMany" "I" ∈ wsX8_example := by decide +kernel
set_option maxHeartbeats 4000000 in
set_option maxRecDepth 100000 in
theorem qX8_example {E : evT} {l : Launch} {D : va_G} {bd : Nat → Nat} {κ : Nat → ClassId} (hE : EvOk E) {kK kV : Nat → Nat} (hSt : SOk E kK kV) (p0 : Int32) (s : mS) {o : (Int32 × mS)} (h : fX8_example p0 s = some o) : Ci l yX8_example wsX8_example rmX8_example (mW bd κ) E D (tyA κ) .int [.ref (bd 67), .int p0] s (fun r s2 => o = (r, s2)) := by
  rw [fX8_example] at h
  refine s_i (cc := cX8_example) (nL := 4) (own := RX8) hE (mW_WA bd κ) (plainFor_of_name (by decide)) rfl rfl (Nat.le_of_ble_eq_true rfl) (fun Γ G hret => ?_)
  refine r_aload_n G 0 rfl rfl dX8_example_0 ?_
  refine r_iload_n G 1 rfl rfl dX8_example_1 ?_
  refine r_iconst G (v := 0) (by decide) dX8_example_2 ?_
  refine r_iconst G (v := 2) (by decide) dX8_example_3 ?_
  refine r_callSi G [.int p0, .int 0, .int 2] (qX8_in hE p0 (0 : Int32) (2 : Int32) _) gX8_example_X8_in rfl hdX8_in ⟨Nat.le_of_ble_eq_true rfl, Nat.le_of_ble_eq_true rfl⟩ (Nat.le_of_ble_eq_true rfl) rfl ⟨Nat.le_of_ble_eq_true rfl, Nat.le_of_ble_eq_true rfl⟩ rfl rfl dX8_example_4 (fun r1 s1 hp hn1 => ?_)
  obtain ⟨rfl, hs⟩ := hp
  have hs := hs.symm
  subst hs
  refine r_iconst G (v := 1) (by decide) dX8_example_7 ?_
  obtain ⟨o2, e2, h⟩ := ob h
  refine r_callVi G [.int (fX8_in p0 (0 : Int32) (2 : Int32) s), .int 1] (qX8_passes hE (fX8_in p0 (0 : Int32) (2 : Int32) s) (1 : Int32) _ e2) ⟨67, 8, _, _, rfl, (mw_MO bd κ _), rfl⟩ gX8_example_X8_passes rfl hdX8_passes ⟨Nat.le_of_ble_eq_true rfl, Nat.le_of_ble_eq_true rfl⟩ (Nat.le_of_ble_eq_true rfl) rfl ⟨Nat.le_of_ble_eq_true rfl, Nat.le_of_ble_eq_true rfl⟩ rfl rfl dX8_example_8 (fun r2 s2 hp hn2 => ?_)
  subst hp
  try dsimp only at h
  refine r_if_ne G (tgt := 16) dX8_example_11 (by decide) (fun c => ?_) (fun c => ?_)
  · rw [if_neg c] at h
    refine r_iload_n G 1 rfl rfl dX8_example_16 ?_
    obtain ⟨o3, e3, h⟩ := ob h
    refine r_callSr G [.int p0] (qX8_exampleOf hE hSt p0 _ e3) gX8_example_X8_exampleOf rfl hdX8_exampleOf ⟨Nat.le_of_ble_eq_true rfl, Nat.le_of_ble_eq_true rfl⟩ (Nat.le_of_ble_eq_true rfl) rfl ⟨Nat.le_of_ble_eq_true rfl, Nat.le_of_ble_eq_true rfl⟩ rfl rfl dX8_example_17 (fun r3 s3 hp => ?_)
    subst hp
    try dsimp only at h
    obtain ⟨g4, h⟩ := og h
    refine r_astore_n G (lv' := [(0, .ref (bd 67)), (2, .ref (kK r3))]) [1, 0] rfl rfl (by decide) dX8_example_20 ?_
    refine r_iconst G (v := 0) (by decide) dX8_example_21 ?_
    refine r_istore_n G (lv' := [(0, .ref (bd 67)), (2, .ref (kK r3)), (3, .int 0)]) [1, 2, 0] rfl rfl (by decide) dX8_example_22 ?_
    refine wX8_example_L23 hE hSt G _ g4 hret (fun s7 h => ?_) 1100 _ _ h
    · try dsimp only at h
      refine r_aload_n G 0 rfl rfl dX8_example_48 ?_
      refine r_aload_n G 1 rfl rfl dX8_example_49 ?_
      refine r_strlen G hSt g4 gX8_example_J0_length_8abf5 ⟨(Nat.le_of_ble_eq_true rfl), (Nat.le_of_ble_eq_true rfl)⟩ (Nat.le_of_ble_eq_true rfl) ⟨(Nat.le_of_ble_eq_true rfl), (Nat.le_of_ble_eq_true rfl)⟩ dX8_example_50 ?_
      refine r_put G (C := RX8) (T := TX8) (N := 19) kX8_example_X8 tyX8 tyX8_ok nmX8 67 (mw_MO bd κ _) rfl 9 (by decide) mX8_example_f141 rfl rfl (tyX8_ok 9 (by decide)) rfl rfl (Nat.le_of_ble_eq_true rfl) (mu_textMany bd κ _ _) dX8_example_53 ?_
      refine r_aload_n G 0 rfl rfl dX8_example_56 ?_
      refine r_get G (C := RX8) (T := TX8) (N := 19) kX8_example_X8 67 (mw_MO bd κ _) rfl 9 (by decide) mX8_example_f141 rfl rfl dX8_example_57 ?_
      exact hret _ _ _ _ _ _ dX8_example_60 (Option.some.inj h).symm rfl (Nat.le_of_ble_eq_true rfl) (Nat.le_of_ble_eq_true rfl)
  · rw [if_pos c] at h
    refine r_iconst G (v := 0) (by decide) dX8_example_14 ?_
    exact hret _ _ _ _ _ _ dX8_example_15 (Option.some.inj h).symm rfl (Nat.le_of_ble_eq_true rfl) (Nat.le_of_ble_eq_true rfl)
abbrev rmX8_meanSize : Room := { frames := 1, cells := 0, slots := 0, locals := 22 }
set_option maxRecDepth 20000 in
theorem kX8_meanSize_X8 : ∀ w ∈ u_ws RX8 TX8 19, w ∈ wsX8_meanSize := by decide +kernel
set_option maxRecDepth 20000 in
theorem mX8_meanSize_f3 : Cond.fieldLink RX8 3 "SetCouncilModel" "thrown" "I" ∈ wsX8_meanSize := by decide +kernel
set_option maxRecDepth 20000 in
theorem mX8_meanSize_c254 : Cond.constantDouble RX8 254 4620693217682128896 ∈ wsX8_meanSize := by decide +kernel
set_option maxRecDepth 20000 in
theorem mX8_meanSize_f27 : Cond.fieldLink RX8 27 "SetCouncilModel" "sets" "[[Z" ∈ wsX8_meanSize := by decide +kernel
set_option maxHeartbeats 4000000 in
set_option maxRecDepth 100000 in
theorem wX8_meanSize_L9 {E : evT} {l : Launch} {D : va_G} {bd : Nat → Nat} {κ : Nat → ClassId} (hE : EvOk E) {Γ : cxT} (G : Cx (mW bd κ) D (tyA κ) E l Γ cX8_meanSize RX8 wsX8_meanSize 3 rmX8_meanSize) {o : (UInt64 × mS)} (hret : ∀ (st2 : mS) (v : UInt64) (cells slots pc : Nat) (lv : List (Nat × Value)), decode cX8_meanSize pc = .ok (.dreturn, 1) → o = (v, st2) → cells ≤ rmX8_meanSize.cells → slots ≤ rmX8_meanSize.slots → V (mW bd κ) D Γ st2 cells slots pc lv [.double v]) : ∀ (fuel : Nat) (x1 : Int32) (x2 : Int32) (s : mS), fX8_meanSize_L9 fuel x1 x2 s = some o → V (mW bd κ) D Γ s 0 0 9 [(0, .ref (bd 67)), (1, .int x1), (2, .int x2)] [] := by
  intro fuel
  induction fuel with
  | zero =>
    intro _ _ _ h
    have h : none = some o := h
    cases h
  | succ fuel ih =>
    intro x1 x2 s h
    rw [fX8_meanSize_L9] at h
    refine r_iload_n G 2 rfl rfl dX8_meanSize_9 ?_
    refine r_bipush G (v := 8) (by decide) dX8_meanSize_10 ?_
    refine r_icmp_ge G (tgt := 33) dX8_meanSize_12 (by decide) (fun c => ?_) (fun c => ?_)
    · rw [if_pos c] at h
      refine r_iload_n G 1 rfl rfl dX8_meanSize_33 ?_
      refine r_i2d G dX8_meanSize_34 ?_
      refine r_ldc2d G mX8_meanSize_c254 dX8_meanSize_35 ?_
      obtain ⟨g1, h⟩ := og h
      refine r_ddiv G g1 dX8_meanSize_38 ?_
      exact hret _ _ _ _ _ _ dX8_meanSize_39 (Option.some.inj h).symm (Nat.le_of_ble_eq_true rfl) (Nat.le_of_ble_eq_true rfl)
    · rw [if_neg c] at h
      refine r_iload_n G 1 rfl rfl dX8_meanSize_15 ?_
      refine r_aload_n G 0 rfl rfl dX8_meanSize_16 ?_
      refine r_get G (C := RX8) (T := TX8) (N := 19) kX8_meanSize_X8 67 (mw_MO bd κ _) rfl 1 (by decide) mX8_meanSize_f27 rfl rfl dX8_meanSize_17 ?_
      refine r_iload_n G 2 rfl rfl dX8_meanSize_20 ?_
      obtain ⟨g2, h⟩ := og h
      refine r_aldA G 68 5 (mw_SETSG bd κ _) rfl (vin_in g2) rfl dX8_meanSize_21 ?_
      obtain ⟨o3, e3, h⟩ := ob h
      refine r_callSi G [.ref (bd x2.toNatClampNeg)] (qX8_sizeOf hE x2.toNatClampNeg (by have := vin_lt g2; omega) _ e3) gX8_meanSize_X8_sizeOf rfl hdX8_sizeOf ⟨Nat.le_of_ble_eq_true rfl, Nat.le_of_ble_eq_true rfl⟩ (Nat.le_of_ble_eq_true rfl) rfl ⟨Nat.le_of_ble_eq_true rfl, Nat.le_of_ble_eq_true rfl⟩ rfl rfl dX8_meanSize_22 (fun r3 s3 hp hn3 => ?_)
      subst hp
      try dsimp only at h
      refine r_iadd G dX8_meanSize_25 ?_
      refine r_istore_n G (lv' := [(0, .ref (bd 67)), (1, .int (x1 + r3)), (2, .int x2)]) [1, 0, 2] rfl rfl (by decide) dX8_meanSize_26 ?_
      refine r_iinc G (j := 2) rfl (v := x2 + 1) (lv' := [(0, .ref (bd 67)), (1, .int (x1 + r3)), (2, .int (x2 + 1))]) rfl [1, 2, 0] rfl (by decide) dX8_meanSize_27 ?_
      refine r_goto G (tgt := 9) dX8_meanSize_30 (by decide) ?_
      exact ih _ _ _ h
set_option maxHeartbeats 4000000 in
set_option maxRecDepth 100000 in
theorem qX8_meanSize {E : evT} {l : Launch} {D : va_G} {bd : Nat → Nat} {κ : Nat → ClassId} (hE : EvOk E) (s : mS) {o : (UInt64 × mS)} (h : fX8_meanSize s = some o) : Cd l yX8_meanSize wsX8_meanSize rmX8_meanSize (mW bd κ) E D (tyA κ)  [.ref (bd 67)] s (fun r s2 => o = (r, s2)) := by
  rw [fX8_meanSize] at h
  refine s_d (cc := cX8_meanSize) (nL := 3) (own := RX8) hE (mW_WA bd κ) (plainFor_of_name (by decide)) rfl rfl (Nat.le_of_ble_eq_true rfl) (fun Γ G hret => ?_)
  refine r_aload_n G 0 rfl rfl dX8_meanSize_0 ?_
  refine r_iconst G (v := 0) (by decide) dX8_meanSize_1 ?_
  refine r_put G (C := RX8) (T := TX8) (N := 19) kX8_meanSize_X8 tyX8 tyX8_ok nmX8 67 (mw_MO bd κ _) rfl 0 (by decide) mX8_meanSize_f3 rfl rfl (tyX8_ok 0 (by decide)) rfl rfl (Nat.le_of_ble_eq_true rfl) (mu_thrown bd κ _ _) dX8_meanSize_2 ?_
  refine r_iconst G (v := 0) (by decide) dX8_meanSize_5 ?_
  refine r_istore_n G (lv' := [(0, .ref (bd 67)), (1, .int 0)]) [1, 0] rfl rfl (by decide) dX8_meanSize_6 ?_
  refine r_iconst G (v := 0) (by decide) dX8_meanSize_7 ?_
  refine r_istore_n G (lv' := [(0, .ref (bd 67)), (1, .int 0), (2, .int 0)]) [1, 2, 0] rfl rfl (by decide) dX8_meanSize_8 ?_
  refine wX8_meanSize_L9 hE G hret 1100 _ _ _ h
abbrev rmX8_nothingShare : Room := { frames := 1, cells := 0, slots := 0, locals := 23 }
set_option maxRecDepth 20000 in
theorem kX8_nothingShare_X8 : ∀ w ∈ u_ws RX8 TX8 19, w ∈ wsX8_nothingShare := by decide +kernel
set_option maxRecDepth 20000 in
theorem mX8_nothingShare_f3 : Cond.fieldLink RX8 3 "SetCouncilModel" "thrown" "I" ∈ wsX8_nothingShare := by decide +kernel
set_option maxRecDepth 20000 in
theorem mX8_nothingShare_c256 : Cond.constantFloat RX8 256 1090519040 ∈ wsX8_nothingShare := by decide +kernel
set_option maxHeartbeats 4000000 in
set_option maxRecDepth 100000 in
theorem qX8_nothingShare {E : evT} {l : Launch} {D : va_G} {bd : Nat → Nat} {κ : Nat → ClassId} (hE : EvOk E) (s : mS) {o : (UInt32 × mS)} (h : fX8_nothingShare s = some o) : Cf l yX8_nothingShare wsX8_nothingShare rmX8_nothingShare (mW bd κ) E D (tyA κ)  [.ref (bd 67)] s (fun r s2 => o = (r, s2)) := by
  rw [fX8_nothingShare] at h
  refine s_f (cc := cX8_nothingShare) (nL := 1) (own := RX8) hE (mW_WA bd κ) (plainFor_of_name (by decide)) rfl rfl (Nat.le_of_ble_eq_true rfl) (fun Γ G hret => ?_)
  refine r_aload_n G 0 rfl rfl dX8_nothingShare_0 ?_
  refine r_iconst G (v := 0) (by decide) dX8_nothingShare_1 ?_
  refine r_put G (C := RX8) (T := TX8) (N := 19) kX8_nothingShare_X8 tyX8 tyX8_ok nmX8 67 (mw_MO bd κ _) rfl 0 (by decide) mX8_nothingShare_f3 rfl rfl (tyX8_ok 0 (by decide)) rfl rfl (Nat.le_of_ble_eq_true rfl) (mu_thrown bd κ _ _) dX8_nothingShare_2 ?_
  refine r_aload_n G 0 rfl rfl dX8_nothingShare_5 ?_
  refine r_iconst G (v := 0) (by decide) dX8_nothingShare_6 ?_
  obtain ⟨o1, e1, h⟩ := ob h
  refine r_callVi G [.int 0] (qX8_votes hE (0 : Int32) _ e1) ⟨67, 8, _, _, rfl, (mw_MO bd κ _), rfl⟩ gX8_nothingShare_X8_votes rfl hdX8_votes ⟨Nat.le_of_ble_eq_true rfl, Nat.le_of_ble_eq_true rfl⟩ (Nat.le_of_ble_eq_true rfl) rfl ⟨Nat.le_of_ble_eq_true rfl, Nat.le_of_ble_eq_true rfl⟩ rfl rfl dX8_nothingShare_7 (fun r1 s1 hp hn1 => ?_)
  subst hp
  try dsimp only at h
  refine r_i2f G dX8_nothingShare_10 ?_
  refine r_ldcwf G mX8_nothingShare_c256 dX8_nothingShare_11 ?_
  obtain ⟨g2, h⟩ := og h
  refine r_fdiv G g2 dX8_nothingShare_14 ?_
  exact hret _ _ _ _ _ _ dX8_nothingShare_15 (Option.some.inj h).symm (Nat.le_of_ble_eq_true rfl) (Nat.le_of_ble_eq_true rfl)
