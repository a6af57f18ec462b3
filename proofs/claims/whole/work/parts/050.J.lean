abbrev rmJ13_bitCount_95d88 : Room := { frames := 0, cells := 0, slots := 0, locals := 0 }
set_option maxRecDepth 20000 in
theorem mJ13_bitCount_95d88_c314 : Cond.constantLong RJ13 314 (6148914691236517205) ∈ wsJ13_bitCount_95d88 := by decide +kernel
set_option maxRecDepth 20000 in
theorem mJ13_bitCount_95d88_c316 : Cond.constantLong RJ13 316 (3689348814741910323) ∈ wsJ13_bitCount_95d88 := by decide +kernel
set_option maxRecDepth 20000 in
theorem mJ13_bitCount_95d88_c318 : Cond.constantLong RJ13 318 (1085102592571150095) ∈ wsJ13_bitCount_95d88 := by decide +kernel
set_option maxHeartbeats 4000000 in
set_option maxRecDepth 100000 in
theorem qJ13_bitCount_95d88 {E : evT} {l : Launch} {D : va_G} {ad : Nat → Nat} {κ : Nat → ClassId} (hE : EvOk E) (p0 : Int64) (s : cS) : Ci l yJ13_bitCount_95d88 wsJ13_bitCount_95d88 rmJ13_bitCount_95d88 (cW ad κ) E D (tyA κ) .int [.long p0] s (fun r s2 => r = fJ13_bitCount_95d88 p0 s ∧ s2 = s) := by
  obtain ⟨o, h⟩ : ∃ o, fJ13_bitCount_95d88 p0 s = o := ⟨_, rfl⟩
  rw [h]
  rw [fJ13_bitCount_95d88] at h
  refine s_i (cc := cJ13_bitCount_95d88) (nL := 2) (own := RJ13) hE (cW_WA ad κ) (by decide +kernel) rfl rfl (Nat.le_of_ble_eq_true rfl) (fun Γ G hret => ?_)
  refine r_lload_n G 0 rfl rfl dJ13_bitCount_95d88_0 ?_
  refine r_lload_n G 0 rfl rfl dJ13_bitCount_95d88_1 ?_
  refine r_iconst G (v := 1) (by decide) dJ13_bitCount_95d88_2 ?_
  refine r_lushr G dJ13_bitCount_95d88_3 ?_
  refine r_ldc2 G mJ13_bitCount_95d88_c314 dJ13_bitCount_95d88_4 ?_
  refine r_land G dJ13_bitCount_95d88_7 ?_
  refine r_lsub G dJ13_bitCount_95d88_8 ?_
  refine r_lstore_n G [0] rfl rfl (by decide) dJ13_bitCount_95d88_9 ?_
  refine r_lload_n G 0 rfl rfl dJ13_bitCount_95d88_10 ?_
  refine r_ldc2 G mJ13_bitCount_95d88_c316 dJ13_bitCount_95d88_11 ?_
  refine r_land G dJ13_bitCount_95d88_14 ?_
  refine r_lload_n G 0 rfl rfl dJ13_bitCount_95d88_15 ?_
  refine r_iconst G (v := 2) (by decide) dJ13_bitCount_95d88_16 ?_
  refine r_lushr G dJ13_bitCount_95d88_17 ?_
  refine r_ldc2 G mJ13_bitCount_95d88_c316 dJ13_bitCount_95d88_18 ?_
  refine r_land G dJ13_bitCount_95d88_21 ?_
  refine r_ladd G dJ13_bitCount_95d88_22 ?_
  refine r_lstore_n G [0] rfl rfl (by decide) dJ13_bitCount_95d88_23 ?_
  refine r_lload_n G 0 rfl rfl dJ13_bitCount_95d88_24 ?_
  refine r_lload_n G 0 rfl rfl dJ13_bitCount_95d88_25 ?_
  refine r_iconst G (v := 4) (by decide) dJ13_bitCount_95d88_26 ?_
  refine r_lushr G dJ13_bitCount_95d88_27 ?_
  refine r_ladd G dJ13_bitCount_95d88_28 ?_
  refine r_ldc2 G mJ13_bitCount_95d88_c318 dJ13_bitCount_95d88_29 ?_
  refine r_land G dJ13_bitCount_95d88_32 ?_
  refine r_lstore_n G [0] rfl rfl (by decide) dJ13_bitCount_95d88_33 ?_
  refine r_lload_n G 0 rfl rfl dJ13_bitCount_95d88_34 ?_
  refine r_lload_n G 0 rfl rfl dJ13_bitCount_95d88_35 ?_
  refine r_bipush G (v := 8) (by decide) dJ13_bitCount_95d88_36 ?_
  refine r_lushr G dJ13_bitCount_95d88_38 ?_
  refine r_ladd G dJ13_bitCount_95d88_39 ?_
  refine r_lstore_n G [0] rfl rfl (by decide) dJ13_bitCount_95d88_40 ?_
  refine r_lload_n G 0 rfl rfl dJ13_bitCount_95d88_41 ?_
  refine r_lload_n G 0 rfl rfl dJ13_bitCount_95d88_42 ?_
  refine r_bipush G (v := 16) (by decide) dJ13_bitCount_95d88_43 ?_
  refine r_lushr G dJ13_bitCount_95d88_45 ?_
  refine r_ladd G dJ13_bitCount_95d88_46 ?_
  refine r_lstore_n G [0] rfl rfl (by decide) dJ13_bitCount_95d88_47 ?_
  refine r_lload_n G 0 rfl rfl dJ13_bitCount_95d88_48 ?_
  refine r_lload_n G 0 rfl rfl dJ13_bitCount_95d88_49 ?_
  refine r_bipush G (v := 32) (by decide) dJ13_bitCount_95d88_50 ?_
  refine r_lushr G dJ13_bitCount_95d88_52 ?_
  refine r_ladd G dJ13_bitCount_95d88_53 ?_
  refine r_lstore_n G [0] rfl rfl (by decide) dJ13_bitCount_95d88_54 ?_
  refine r_lload_n G 0 rfl rfl dJ13_bitCount_95d88_55 ?_
  refine r_l2i G dJ13_bitCount_95d88_56 ?_
  refine r_bipush G (v := 127) (by decide) dJ13_bitCount_95d88_57 ?_
  refine r_iand G dJ13_bitCount_95d88_59 ?_
  exact hret _ _ _ _ _ _ dJ13_bitCount_95d88_60 ⟨h, rfl⟩ rfl (Nat.le_of_ble_eq_true rfl) (Nat.le_of_ble_eq_true rfl)
abbrev rmJ9_floorMod_7cf53 : Room := { frames := 0, cells := 0, slots := 0, locals := 0 }
set_option maxHeartbeats 4000000 in
set_option maxRecDepth 100000 in
theorem qJ9_floorMod_7cf53 {E : evT} {l : Launch} {D : va_G} {ad : Nat → Nat} {κ : Nat → ClassId} (hE : EvOk E) (p0 : Int32) (p1 : Int32) (s : cS) {o : (Int32 × cS)} (h : fJ9_floorMod_7cf53 p0 p1 s = some o) : Ci l yJ9_floorMod_7cf53 wsJ9_floorMod_7cf53 rmJ9_floorMod_7cf53 (cW ad κ) E D (tyA κ) .int [.int p0, .int p1] s (fun r s2 => o = (r, s2)) := by
  rw [fJ9_floorMod_7cf53] at h
  refine s_i (cc := cJ9_floorMod_7cf53) (nL := 3) (own := RJ9) hE (cW_WA ad κ) (by decide +kernel) rfl rfl (Nat.le_of_ble_eq_true rfl) (fun Γ G hret => ?_)
  refine r_iload_n G 0 rfl rfl dJ9_floorMod_7cf53_0 ?_
  refine r_iload_n G 1 rfl rfl dJ9_floorMod_7cf53_1 ?_
  obtain ⟨g1, h⟩ := og h
  refine r_irem G g1 dJ9_floorMod_7cf53_2 ?_
  refine r_istore_n G [1, 2, 0] rfl rfl (by decide) dJ9_floorMod_7cf53_3 ?_
  refine r_iload_n G 0 rfl rfl dJ9_floorMod_7cf53_4 ?_
  refine r_iload_n G 1 rfl rfl dJ9_floorMod_7cf53_5 ?_
  refine r_ixor G dJ9_floorMod_7cf53_6 ?_
  refine r_if_ge G (tgt := 18) dJ9_floorMod_7cf53_7 (by decide) (fun c => ?_) (fun c => ?_)
  · rw [if_pos c] at h
    refine r_iload_n G 2 rfl rfl dJ9_floorMod_7cf53_18 ?_
    exact hret _ _ _ _ _ _ dJ9_floorMod_7cf53_19 (Option.some.inj h).symm rfl (Nat.le_of_ble_eq_true rfl) (Nat.le_of_ble_eq_true rfl)
  · rw [if_neg c] at h
    refine r_iload_n G 2 rfl rfl dJ9_floorMod_7cf53_10 ?_
    refine r_if_eq G (tgt := 18) dJ9_floorMod_7cf53_11 (by decide) (fun c => ?_) (fun c => ?_)
    · rw [if_pos c] at h
      refine r_iload_n G 2 rfl rfl dJ9_floorMod_7cf53_18 ?_
      exact hret _ _ _ _ _ _ dJ9_floorMod_7cf53_19 (Option.some.inj h).symm rfl (Nat.le_of_ble_eq_true rfl) (Nat.le_of_ble_eq_true rfl)
    · rw [if_neg c] at h
      refine r_iload_n G 2 rfl rfl dJ9_floorMod_7cf53_14 ?_
      refine r_iload_n G 1 rfl rfl dJ9_floorMod_7cf53_15 ?_
      refine r_iadd G dJ9_floorMod_7cf53_16 ?_
      exact hret _ _ _ _ _ _ dJ9_floorMod_7cf53_17 (Option.some.inj h).symm rfl (Nat.le_of_ble_eq_true rfl) (Nat.le_of_ble_eq_true rfl)
abbrev rmJ6_bitCount_0f7a4 : Room := { frames := 0, cells := 0, slots := 0, locals := 0 }
set_option maxRecDepth 20000 in
theorem mJ6_bitCount_0f7a4_c265 : Cond.constant RJ6 265 (1431655765) ∈ wsJ6_bitCount_0f7a4 := by decide +kernel
set_option maxRecDepth 20000 in
theorem mJ6_bitCount_0f7a4_c266 : Cond.constant RJ6 266 (858993459) ∈ wsJ6_bitCount_0f7a4 := by decide +kernel
set_option maxRecDepth 20000 in
theorem mJ6_bitCount_0f7a4_c267 : Cond.constant RJ6 267 (252645135) ∈ wsJ6_bitCount_0f7a4 := by decide +kernel
set_option maxHeartbeats 4000000 in
set_option maxRecDepth 100000 in
theorem qJ6_bitCount_0f7a4 {E : evT} {l : Launch} {D : va_G} {ad : Nat → Nat} {κ : Nat → ClassId} (hE : EvOk E) (p0 : Int32) (s : cS) : Ci l yJ6_bitCount_0f7a4 wsJ6_bitCount_0f7a4 rmJ6_bitCount_0f7a4 (cW ad κ) E D (tyA κ) .int [.int p0] s (fun r s2 => r = fJ6_bitCount_0f7a4 p0 s ∧ s2 = s) := by
  obtain ⟨o, h⟩ : ∃ o, fJ6_bitCount_0f7a4 p0 s = o := ⟨_, rfl⟩
  rw [h]
  rw [fJ6_bitCount_0f7a4] at h
  refine s_i (cc := cJ6_bitCount_0f7a4) (nL := 1) (own := RJ6) hE (cW_WA ad κ) (by decide +kernel) rfl rfl (Nat.le_of_ble_eq_true rfl) (fun Γ G hret => ?_)
  refine r_iload_n G 0 rfl rfl dJ6_bitCount_0f7a4_0 ?_
  refine r_iload_n G 0 rfl rfl dJ6_bitCount_0f7a4_1 ?_
  refine r_iconst G (v := 1) (by decide) dJ6_bitCount_0f7a4_2 ?_
  refine r_iushr G dJ6_bitCount_0f7a4_3 ?_
  refine r_ldcw G mJ6_bitCount_0f7a4_c265 dJ6_bitCount_0f7a4_4 ?_
  refine r_iand G dJ6_bitCount_0f7a4_7 ?_
  refine r_isub G dJ6_bitCount_0f7a4_8 ?_
  refine r_istore_n G [0] rfl rfl (by decide) dJ6_bitCount_0f7a4_9 ?_
  refine r_iload_n G 0 rfl rfl dJ6_bitCount_0f7a4_10 ?_
  refine r_ldcw G mJ6_bitCount_0f7a4_c266 dJ6_bitCount_0f7a4_11 ?_
  refine r_iand G dJ6_bitCount_0f7a4_14 ?_
  refine r_iload_n G 0 rfl rfl dJ6_bitCount_0f7a4_15 ?_
  refine r_iconst G (v := 2) (by decide) dJ6_bitCount_0f7a4_16 ?_
  refine r_iushr G dJ6_bitCount_0f7a4_17 ?_
  refine r_ldcw G mJ6_bitCount_0f7a4_c266 dJ6_bitCount_0f7a4_18 ?_
  refine r_iand G dJ6_bitCount_0f7a4_21 ?_
  refine r_iadd G dJ6_bitCount_0f7a4_22 ?_
  refine r_istore_n G [0] rfl rfl (by decide) dJ6_bitCount_0f7a4_23 ?_
  refine r_iload_n G 0 rfl rfl dJ6_bitCount_0f7a4_24 ?_
  refine r_iload_n G 0 rfl rfl dJ6_bitCount_0f7a4_25 ?_
  refine r_iconst G (v := 4) (by decide) dJ6_bitCount_0f7a4_26 ?_
  refine r_iushr G dJ6_bitCount_0f7a4_27 ?_
  refine r_iadd G dJ6_bitCount_0f7a4_28 ?_
  refine r_ldcw G mJ6_bitCount_0f7a4_c267 dJ6_bitCount_0f7a4_29 ?_
  refine r_iand G dJ6_bitCount_0f7a4_32 ?_
  refine r_istore_n G [0] rfl rfl (by decide) dJ6_bitCount_0f7a4_33 ?_
  refine r_iload_n G 0 rfl rfl dJ6_bitCount_0f7a4_34 ?_
  refine r_iload_n G 0 rfl rfl dJ6_bitCount_0f7a4_35 ?_
  refine r_bipush G (v := 8) (by decide) dJ6_bitCount_0f7a4_36 ?_
  refine r_iushr G dJ6_bitCount_0f7a4_38 ?_
  refine r_iadd G dJ6_bitCount_0f7a4_39 ?_
  refine r_istore_n G [0] rfl rfl (by decide) dJ6_bitCount_0f7a4_40 ?_
  refine r_iload_n G 0 rfl rfl dJ6_bitCount_0f7a4_41 ?_
  refine r_iload_n G 0 rfl rfl dJ6_bitCount_0f7a4_42 ?_
  refine r_bipush G (v := 16) (by decide) dJ6_bitCount_0f7a4_43 ?_
  refine r_iushr G dJ6_bitCount_0f7a4_45 ?_
  refine r_iadd G dJ6_bitCount_0f7a4_46 ?_
  refine r_istore_n G [0] rfl rfl (by decide) dJ6_bitCount_0f7a4_47 ?_
  refine r_iload_n G 0 rfl rfl dJ6_bitCount_0f7a4_48 ?_
  refine r_bipush G (v := 63) (by decide) dJ6_bitCount_0f7a4_49 ?_
  refine r_iand G dJ6_bitCount_0f7a4_51 ?_
  exact hret _ _ _ _ _ _ dJ6_bitCount_0f7a4_52 ⟨h, rfl⟩ rfl (Nat.le_of_ble_eq_true rfl) (Nat.le_of_ble_eq_true rfl)
