abbrev rmX4_length : Room := { frames := 0, cells := 0, slots := 0, locals := 0 }
set_option maxRecDepth 20000 in
theorem kX4_length_X4 : ∀ w ∈ u_ws RX4 TX4 2, w ∈ wsX4_length := by decide +kernel
set_option maxRecDepth 20000 in
theorem mX4_length_f15 : Cond.fieldLink RX4 15 "SetCouncil$Text" "length" "I" ∈ wsX4_length := by decide +kernel
set_option maxHeartbeats 4000000 in
set_option maxRecDepth 100000 in
theorem qX4_length {E : evT} {l : Launch} {D : va_G} {ad : Nat → Nat} {κ : Nat → ClassId} (hE : EvOk E) (s : cS) : Ci l yX4_length wsX4_length rmX4_length (cW ad κ) E D (tyA κ) .int [.ref (ad 70)] s (fun r s2 => r = fX4_length s ∧ s2 = s) := by
  obtain ⟨o, h⟩ : ∃ o, fX4_length s = o := ⟨_, rfl⟩
  rw [h]
  rw [fX4_length] at h
  refine s_i (cc := cX4_length) (nL := 1) (own := RX4) hE (cW_WA ad κ) (plainFor_of_name (by decide)) rfl rfl (Nat.le_of_ble_eq_true rfl) (fun Γ G hret => ?_)
  refine r_aload_n G 0 rfl rfl dX4_length_0 ?_
  refine r_get G (C := RX4) (T := TX4) (N := 2) kX4_length_X4 70 (cw_TEXT ad κ _) rfl 1 (by decide) mX4_length_f15 rfl rfl dX4_length_1 ?_
  exact hret _ _ _ _ _ _ dX4_length_4 ⟨h, rfl⟩ rfl (Nat.le_of_ble_eq_true rfl) (Nat.le_of_ble_eq_true rfl)
abbrev rmX4_empty : Room := { frames := 0, cells := 0, slots := 0, locals := 0 }
set_option maxRecDepth 20000 in
theorem kX4_empty_X4 : ∀ w ∈ u_ws RX4 TX4 2, w ∈ wsX4_empty := by decide +kernel
set_option maxRecDepth 20000 in
theorem mX4_empty_f15 : Cond.fieldLink RX4 15 "SetCouncil$Text" "length" "I" ∈ wsX4_empty := by decide +kernel
set_option maxHeartbeats 4000000 in
set_option maxRecDepth 100000 in
theorem qX4_empty {E : evT} {l : Launch} {D : va_G} {ad : Nat → Nat} {κ : Nat → ClassId} (hE : EvOk E) (s : cS) {o : (cS)} (h : fX4_empty s = some o) : Cv l yX4_empty wsX4_empty rmX4_empty (cW ad κ) E D (tyA κ)  [.ref (ad 70)] s (fun s2 => o = s2) := by
  rw [fX4_empty] at h
  refine s_v (cc := cX4_empty) (nL := 1) (own := RX4) hE (cW_WA ad κ) (by decide) rfl rfl (Nat.le_of_ble_eq_true rfl) (fun Γ G hret => ?_)
  refine r_aload_n G 0 rfl rfl dX4_empty_0 ?_
  refine r_iconst G (v := 0) (by decide) dX4_empty_1 ?_
  refine r_put G (C := RX4) (T := TX4) (N := 2) kX4_empty_X4 tyX4 tyX4_ok nmX4 70 (cw_TEXT ad κ _) rfl 1 (by decide) mX4_empty_f15 rfl rfl (tyX4_ok 1 (by decide)) rfl rfl (Nat.le_of_ble_eq_true rfl) (cu_TLEN ad κ _ _) dX4_empty_2 ?_
  exact hret _ _ _ _ _ dX4_empty_5 (Option.some.inj h).symm (Nat.le_of_ble_eq_true rfl) (Nat.le_of_ble_eq_true rfl)
abbrev rmX4_byteAt : Room := { frames := 0, cells := 0, slots := 0, locals := 0 }
set_option maxRecDepth 20000 in
theorem kX4_byteAt_X4 : ∀ w ∈ u_ws RX4 TX4 2, w ∈ wsX4_byteAt := by decide +kernel
set_option maxRecDepth 20000 in
theorem mX4_byteAt_f15 : Cond.fieldLink RX4 15 "SetCouncil$Text" "length" "I" ∈ wsX4_byteAt := by decide +kernel
set_option maxRecDepth 20000 in
theorem mX4_byteAt_f9 : Cond.fieldLink RX4 9 "SetCouncil$Text" "bytes" "[C" ∈ wsX4_byteAt := by decide +kernel
set_option maxHeartbeats 4000000 in
set_option maxRecDepth 100000 in
theorem qX4_byteAt {E : evT} {l : Launch} {D : va_G} {ad : Nat → Nat} {κ : Nat → ClassId} (hE : EvOk E) (p0 : Int32) (s : cS) {o : (Int32 × cS)} (h : fX4_byteAt p0 s = some o) : Ci l yX4_byteAt wsX4_byteAt rmX4_byteAt (cW ad κ) E D (tyA κ) .int [.ref (ad 70), .int p0] s (fun r s2 => o = (r, s2)) := by
  rw [fX4_byteAt] at h
  refine s_i (cc := cX4_byteAt) (nL := 2) (own := RX4) hE (cW_WA ad κ) (plainFor_of_name (by decide)) rfl rfl (Nat.le_of_ble_eq_true rfl) (fun Γ G hret => ?_)
  refine r_iload_n G 1 rfl rfl dX4_byteAt_0 ?_
  refine r_if_lt G (tgt := 21) dX4_byteAt_1 (by decide) (fun c => ?_) (fun c => ?_)
  · rw [if_pos c] at h
    refine r_iconst G (v := 0) (by decide) dX4_byteAt_21 ?_
    exact hret _ _ _ _ _ _ dX4_byteAt_22 (Option.some.inj h).symm rfl (Nat.le_of_ble_eq_true rfl) (Nat.le_of_ble_eq_true rfl)
  · rw [if_neg c] at h
    refine r_iload_n G 1 rfl rfl dX4_byteAt_4 ?_
    refine r_aload_n G 0 rfl rfl dX4_byteAt_5 ?_
    refine r_get G (C := RX4) (T := TX4) (N := 2) kX4_byteAt_X4 70 (cw_TEXT ad κ _) rfl 1 (by decide) mX4_byteAt_f15 rfl rfl dX4_byteAt_6 ?_
    refine r_icmp_ge G (tgt := 21) dX4_byteAt_9 (by decide) (fun c => ?_) (fun c => ?_)
    · rw [if_pos c] at h
      refine r_iconst G (v := 0) (by decide) dX4_byteAt_21 ?_
      exact hret _ _ _ _ _ _ dX4_byteAt_22 (Option.some.inj h).symm rfl (Nat.le_of_ble_eq_true rfl) (Nat.le_of_ble_eq_true rfl)
    · rw [if_neg c] at h
      refine r_aload_n G 0 rfl rfl dX4_byteAt_12 ?_
      refine r_get G (C := RX4) (T := TX4) (N := 2) kX4_byteAt_X4 70 (cw_TEXT ad κ _) rfl 0 (by decide) mX4_byteAt_f9 rfl rfl dX4_byteAt_13 ?_
      refine r_iload_n G 1 rfl rfl dX4_byteAt_16 ?_
      obtain ⟨g1, h⟩ := og h
      refine r_cald G 71 2 (cw_BYTES ad κ _) rfl (vin_in g1) dX4_byteAt_17 ?_
      refine r_goto G (tgt := 22) dX4_byteAt_18 (by decide) ?_
      exact hret _ _ _ _ _ _ dX4_byteAt_22 (Option.some.inj h).symm rfl (Nat.le_of_ble_eq_true rfl) (Nat.le_of_ble_eq_true rfl)
abbrev rmX4_appendByte : Room := { frames := 0, cells := 0, slots := 0, locals := 0 }
set_option maxRecDepth 20000 in
theorem kX4_appendByte_X4 : ∀ w ∈ u_ws RX4 TX4 2, w ∈ wsX4_appendByte := by decide +kernel
set_option maxRecDepth 20000 in
theorem mX4_appendByte_f15 : Cond.fieldLink RX4 15 "SetCouncil$Text" "length" "I" ∈ wsX4_appendByte := by decide +kernel
set_option maxRecDepth 20000 in
theorem mX4_appendByte_f9 : Cond.fieldLink RX4 9 "SetCouncil$Text" "bytes" "[C" ∈ wsX4_appendByte := by decide +kernel
set_option maxHeartbeats 4000000 in
set_option maxRecDepth 100000 in
theorem qX4_appendByte {E : evT} {l : Launch} {D : va_G} {ad : Nat → Nat} {κ : Nat → ClassId} (hE : EvOk E) (p0 : Int32) (s : cS) {o : (cS)} (h : fX4_appendByte p0 s = some o) : Cv l yX4_appendByte wsX4_appendByte rmX4_appendByte (cW ad κ) E D (tyA κ)  [.ref (ad 70), .int p0] s (fun s2 => o = s2) := by
  rw [fX4_appendByte] at h
  refine s_v (cc := cX4_appendByte) (nL := 2) (own := RX4) hE (cW_WA ad κ) (by decide) rfl rfl (Nat.le_of_ble_eq_true rfl) (fun Γ G hret => ?_)
  refine r_iload_n G 1 rfl rfl dX4_appendByte_0 ?_
  refine r_if_eq G (tgt := 35) dX4_appendByte_1 (by decide) (fun c => ?_) (fun c => ?_)
  · rw [if_pos c] at h
    exact hret _ _ _ _ _ dX4_appendByte_35 (Option.some.inj h).symm (Nat.le_of_ble_eq_true rfl) (Nat.le_of_ble_eq_true rfl)
  · rw [if_neg c] at h
    refine r_aload_n G 0 rfl rfl dX4_appendByte_4 ?_
    refine r_get G (C := RX4) (T := TX4) (N := 2) kX4_appendByte_X4 70 (cw_TEXT ad κ _) rfl 1 (by decide) mX4_appendByte_f15 rfl rfl dX4_appendByte_5 ?_
    refine r_sipush G (v := 200) (by decide) dX4_appendByte_8 ?_
    refine r_icmp_ge G (tgt := 35) dX4_appendByte_11 (by decide) (fun c => ?_) (fun c => ?_)
    · rw [if_pos c] at h
      exact hret _ _ _ _ _ dX4_appendByte_35 (Option.some.inj h).symm (Nat.le_of_ble_eq_true rfl) (Nat.le_of_ble_eq_true rfl)
    · rw [if_neg c] at h
      refine r_aload_n G 0 rfl rfl dX4_appendByte_14 ?_
      refine r_get G (C := RX4) (T := TX4) (N := 2) kX4_appendByte_X4 70 (cw_TEXT ad κ _) rfl 0 (by decide) mX4_appendByte_f9 rfl rfl dX4_appendByte_15 ?_
      refine r_aload_n G 0 rfl rfl dX4_appendByte_18 ?_
      refine r_get G (C := RX4) (T := TX4) (N := 2) kX4_appendByte_X4 70 (cw_TEXT ad κ _) rfl 1 (by decide) mX4_appendByte_f15 rfl rfl dX4_appendByte_19 ?_
      refine r_iload_n G 1 rfl rfl dX4_appendByte_22 ?_
      refine r_i2c G dX4_appendByte_23 ?_
      obtain ⟨g1, h⟩ := og h
      refine r_cast G 71 2 (cw_BYTES ad κ _) rfl (vin_in g1) (cu_BYTE ad κ _ _ _) dX4_appendByte_24 ?_
      refine r_aload_n G 0 rfl rfl dX4_appendByte_25 ?_
      refine r_dup G rfl dX4_appendByte_26 ?_
      refine r_get G (C := RX4) (T := TX4) (N := 2) kX4_appendByte_X4 70 (cw_TEXT ad κ _) rfl 1 (by decide) mX4_appendByte_f15 rfl rfl dX4_appendByte_27 ?_
      refine r_iconst G (v := 1) (by decide) dX4_appendByte_30 ?_
      refine r_iadd G dX4_appendByte_31 ?_
      refine r_put G (C := RX4) (T := TX4) (N := 2) kX4_appendByte_X4 tyX4 tyX4_ok nmX4 70 (cw_TEXT ad κ _) rfl 1 (by decide) mX4_appendByte_f15 rfl rfl (tyX4_ok 1 (by decide)) rfl rfl (Nat.le_of_ble_eq_true rfl) (cu_TLEN ad κ _ _) dX4_appendByte_32 ?_
      exact hret _ _ _ _ _ dX4_appendByte_35 (Option.some.inj h).symm (Nat.le_of_ble_eq_true rfl) (Nat.le_of_ble_eq_true rfl)
abbrev rmX4_append : Room := { frames := 1, cells := 0, slots := 0, locals := 21 }
set_option maxRecDepth 20000 in
theorem mX4_append_c19 : Cond.constantLong RX4 19 (255) ∈ wsX4_append := by decide +kernel
theorem iincm8 (x : Int32) : x + Int32.ofInt (-8) = x + (-8) := by rw [show Int32.ofInt (-8) = (-8 : Int32) from by decide]
set_option maxHeartbeats 4000000 in
set_option maxRecDepth 100000 in
theorem wX4_append_L6 {E : evT} {l : Launch} {D : va_G} {ad : Nat → Nat} {κ : Nat → ClassId} (hE : EvOk E) {Γ : cxT} (G : Cx (cW ad κ) D (tyA κ) E l Γ cX4_append RX4 wsX4_append 5 rmX4_append) (x1 : Int64) {o : (Int32 × cS)} (hret : ∀ (st2 : cS) (v : Int32) (cells slots pc : Nat) (lv : List (Nat × Value)), decode cX4_append pc = .ok (.ireturn, 1) → o = (v, st2) → narrow .boolean (.int v) = .int v → cells ≤ rmX4_append.cells → slots ≤ rmX4_append.slots → V (cW ad κ) D Γ st2 cells slots pc lv [.int v]) {k0 : Int32 → cS → Option (Int32 × cS)} (hk0 : ∀ (y3 : Int32) (s : cS), k0 y3 s = some o → V (cW ad κ) D Γ s 0 0 33 [(0, .ref (ad 70)), (1, .long x1), (3, .int y3)] []) : ∀ (fuel : Nat) (x3 : Int32) (x4 : Int32) (s : cS), fX4_append_L6 x1 k0 fuel x3 x4 s = some o → V (cW ad κ) D Γ s 0 0 6 [(0, .ref (ad 70)), (1, .long x1), (3, .int x3), (4, .int x4)] [] := by
  intro fuel
  induction fuel with
  | zero =>
    intro _ _ _ h
    have h : none = some o := h
    cases h
  | succ fuel ih =>
    intro x3 x4 s h
    rw [fX4_append_L6] at h
    refine r_iload G 3 rfl dX4_append_6 ?_
    refine r_if_lt G (tgt := 33) dX4_append_8 (by decide) (fun c => ?_) (fun c => ?_)
    · rw [if_pos c] at h
      refine V.sub [0, 1, 2] rfl ?_
      exact hk0 _ _ h
    · rw [if_neg c] at h
      refine r_lload_n G 1 rfl rfl dX4_append_11 ?_
      refine r_iload G 3 rfl dX4_append_12 ?_
      refine r_lushr G dX4_append_14 ?_
      refine r_ldc2 G mX4_append_c19 dX4_append_15 ?_
      refine r_land G dX4_append_18 ?_
      refine r_lconst G (v := 0) (by decide) dX4_append_19 ?_
      refine r_lcmp G dX4_append_20 ?_
      refine r_if_eq G (tgt := 27) dX4_append_21 (by decide) (fun c => ?_) (fun c => ?_)
      · rw [if_pos c] at h
        refine r_iinc G (j := 3) rfl (v := x4 + (-8)) (iincm8 _) [1, 2, 3, 0] rfl (by decide) dX4_append_27 ?_
        refine r_goto G (tgt := 6) dX4_append_30 (by decide) ?_
        exact ih _ _ _ h
      · rw [if_neg c] at h
        refine r_iinc G (j := 2) rfl (v := x3 + 1) rfl [1, 2, 0, 3] rfl (by decide) dX4_append_24 ?_
        refine r_iinc G (j := 3) rfl (v := x4 + (-8)) (iincm8 _) [1, 2, 3, 0] rfl (by decide) dX4_append_27 ?_
        refine r_goto G (tgt := 6) dX4_append_30 (by decide) ?_
        exact ih _ _ _ h
set_option maxRecDepth 20000 in
theorem kX4_append_X4 : ∀ w ∈ u_ws RX4 TX4 2, w ∈ wsX4_append := by decide +kernel
set_option maxRecDepth 20000 in
theorem mX4_append_f15 : Cond.fieldLink RX4 15 "SetCouncil$Text" "length" "I" ∈ wsX4_append := by decide +kernel
theorem hdX4_appendByte : yX4_appendByte.cls = RX4 ∧ yX4_appendByte.cls ≠ "java/lang/invoke/MethodHandle" ∧ yX4_appendByte.cls ≠ "java/lang/invoke/VarHandle" ∧ (parseMethodDescriptor yX4_appendByte.desc).map (fun d => d.parameters.length) = some 1 := by decide +kernel
set_option maxHeartbeats 4000000 in
set_option maxRecDepth 100000 in
theorem wX4_append_L51 {E : evT} {l : Launch} {D : va_G} {ad : Nat → Nat} {κ : Nat → ClassId} (hE : EvOk E) {Γ : cxT} (G : Cx (cW ad κ) D (tyA κ) E l Γ cX4_append RX4 wsX4_append 5 rmX4_append) (x1 : Int64) {o : (Int32 × cS)} (hret : ∀ (st2 : cS) (v : Int32) (cells slots pc : Nat) (lv : List (Nat × Value)), decode cX4_append pc = .ok (.ireturn, 1) → o = (v, st2) → narrow .boolean (.int v) = .int v → cells ≤ rmX4_append.cells → slots ≤ rmX4_append.slots → V (cW ad κ) D Γ st2 cells slots pc lv [.int v]) : ∀ (fuel : Nat) (x4 : Int32) (s : cS), fX4_append_L51 x1 fuel x4 s = some o → V (cW ad κ) D Γ s 0 0 51 [(0, .ref (ad 70)), (1, .long x1), (4, .int x4)] [] := by
  intro fuel
  induction fuel with
  | zero =>
    intro _ _ h
    have h : none = some o := h
    cases h
  | succ fuel ih =>
    intro x4 s h
    rw [fX4_append_L51] at h
    refine r_iload G 2 rfl dX4_append_51 ?_
    refine r_if_lt G (tgt := 75) dX4_append_53 (by decide) (fun c => ?_) (fun c => ?_)
    · rw [if_pos c] at h
      refine r_iconst G (v := 1) (by decide) dX4_append_75 ?_
      exact hret _ _ _ _ _ _ dX4_append_76 (Option.some.inj h).symm rfl (Nat.le_of_ble_eq_true rfl) (Nat.le_of_ble_eq_true rfl)
    · rw [if_neg c] at h
      refine r_aload_n G 0 rfl rfl dX4_append_56 ?_
      refine r_lload_n G 1 rfl rfl dX4_append_57 ?_
      refine r_iload G 2 rfl dX4_append_58 ?_
      refine r_lushr G dX4_append_60 ?_
      refine r_ldc2 G mX4_append_c19 dX4_append_61 ?_
      refine r_land G dX4_append_64 ?_
      refine r_l2i G dX4_append_65 ?_
      obtain ⟨o2, e2, h⟩ := ob h
      refine r_callVv G [.int ((((x1.toUInt64 >>> (x4.toInt64.toUInt64 &&& Int64.toUInt64 63)).toInt64) &&& 255).toInt32)] (qX4_appendByte hE ((((x1.toUInt64 >>> (x4.toInt64.toUInt64 &&& Int64.toUInt64 63)).toInt64) &&& 255).toInt32) _ e2) ⟨70, 4, _, _, rfl, (cw_TEXT ad κ _), rfl⟩ gX4_append_X4_appendByte rfl hdX4_appendByte ⟨Nat.le_of_ble_eq_true rfl, Nat.le_of_ble_eq_true rfl⟩ (Nat.le_of_ble_eq_true rfl) rfl ⟨Nat.le_of_ble_eq_true rfl, Nat.le_of_ble_eq_true rfl⟩ rfl rfl dX4_append_66 (fun s2 hp => ?_)
      have hp := hp.symm
      subst hp
      try dsimp only at h
      refine r_iinc G (j := 2) rfl (v := x4 + (-8)) (iincm8 _) [1, 2, 0] rfl (by decide) dX4_append_69 ?_
      refine r_goto G (tgt := 51) dX4_append_72 (by decide) ?_
      exact ih _ _ h
set_option maxHeartbeats 4000000 in
set_option maxRecDepth 100000 in
theorem qX4_append {E : evT} {l : Launch} {D : va_G} {ad : Nat → Nat} {κ : Nat → ClassId} (hE : EvOk E) (p0 : Int64) (s : cS) {o : (Int32 × cS)} (h : fX4_append p0 s = some o) : Ci l yX4_append wsX4_append rmX4_append (cW ad κ) E D (tyA κ) .boolean [.ref (ad 70), .long p0] s (fun r s2 => o = (r, s2)) := by
  rw [fX4_append] at h
  refine s_i (cc := cX4_append) (nL := 5) (own := RX4) hE (cW_WA ad κ) (plainFor_of_name (by decide)) rfl rfl (Nat.le_of_ble_eq_true rfl) (fun Γ G hret => ?_)
  refine r_iconst G (v := 0) (by decide) dX4_append_0 ?_
  refine r_istore_n G [1, 2, 0] rfl rfl (by decide) dX4_append_1 ?_
  refine r_bipush G (v := 56) (by decide) dX4_append_2 ?_
  refine r_istore G [1, 2, 3, 0] rfl (by decide) dX4_append_4 ?_
  refine wX4_append_L6 hE G _ hret (fun y3_1 s1 h => ?_) 1100 _ _ _ h
  · try dsimp only at h
    refine r_aload_n G 0 rfl rfl dX4_append_33 ?_
    refine r_get G (C := RX4) (T := TX4) (N := 2) kX4_append_X4 70 (cw_TEXT ad κ _) rfl 1 (by decide) mX4_append_f15 rfl rfl dX4_append_34 ?_
    refine r_iload_n G 2 rfl rfl dX4_append_37 ?_
    refine r_iadd G dX4_append_38 ?_
    refine r_sipush G (v := 200) (by decide) dX4_append_39 ?_
    refine r_icmp_le G (tgt := 47) dX4_append_42 (by decide) (fun c => ?_) (fun c => ?_)
    · rw [if_pos c] at h
      refine r_bipush G (v := 56) (by decide) dX4_append_47 ?_
      refine r_istore G [1, 2, 0] rfl (by decide) dX4_append_49 ?_
      refine wX4_append_L51 hE G _ hret 1100 _ _ h
    · rw [if_neg c] at h
      refine r_iconst G (v := 0) (by decide) dX4_append_45 ?_
      exact hret _ _ _ _ _ _ dX4_append_46 (Option.some.inj h).symm rfl (Nat.le_of_ble_eq_true rfl) (Nat.le_of_ble_eq_true rfl)
