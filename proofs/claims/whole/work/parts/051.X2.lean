abbrev rmX2_holds : Room := { frames := 0, cells := 0, slots := 0, locals := 0 }
set_option maxRecDepth 20000 in
theorem kX2_holds_X2 : ∀ w ∈ u_ws RX2 TX2 2, w ∈ wsX2_holds := by decide +kernel
set_option maxRecDepth 20000 in
theorem mX2_holds_f15 : Cond.fieldLink RX2 15 "SetCouncil$MemberSet" "high" "J" ∈ wsX2_holds := by decide +kernel
set_option maxRecDepth 20000 in
theorem mX2_holds_f9 : Cond.fieldLink RX2 9 "SetCouncil$MemberSet" "low" "J" ∈ wsX2_holds := by decide +kernel
set_option maxHeartbeats 4000000 in
set_option maxRecDepth 100000 in
theorem qX2_holds {E : evT} {l : Launch} {D : va_G} {ad : Nat → Nat} {κ : Nat → ClassId} (hE : EvOk E) (n : Nat) (hn : n < 55) (p0 : Int32) (s : cS) : Ci l yX2_holds wsX2_holds rmX2_holds (cW ad κ) E D (tyA κ) .boolean [.ref (ad n), .int p0] s (fun r s2 => r = fX2_holds n p0 s ∧ s2 = s) := by
  obtain ⟨o, h⟩ : ∃ o, fX2_holds n p0 s = o := ⟨_, rfl⟩
  rw [h]
  rw [fX2_holds] at h
  refine s_i (cc := cX2_holds) (nL := 4) (own := RX2) hE (cW_WA ad κ) (plainFor_of_name (by decide)) rfl rfl (Nat.le_of_ble_eq_true rfl) (fun Γ G hret => ?_)
  refine r_iload_n G 1 rfl rfl dX2_holds_0 ?_
  refine r_if_lt G (tgt := 10) dX2_holds_1 (by decide) (fun c => ?_) (fun c => ?_)
  · rw [if_pos c] at h
    refine r_iconst G (v := 0) (by decide) dX2_holds_10 ?_
    exact hret _ _ _ _ _ _ dX2_holds_11 ⟨h, rfl⟩ rfl (Nat.le_of_ble_eq_true rfl) (Nat.le_of_ble_eq_true rfl)
  · rw [if_neg c] at h
    refine r_iload_n G 1 rfl rfl dX2_holds_4 ?_
    refine r_bipush G (v := 102) (by decide) dX2_holds_5 ?_
    refine r_icmp_lt G (tgt := 12) dX2_holds_7 (by decide) (fun c => ?_) (fun c => ?_)
    · rw [if_pos c] at h
      refine r_iload_n G 1 rfl rfl dX2_holds_12 ?_
      refine r_bipush G (v := 64) (by decide) dX2_holds_13 ?_
      refine r_icmp_ge G (tgt := 25) dX2_holds_15 (by decide) (fun c => ?_) (fun c => ?_)
      · rw [if_pos c] at h
        refine r_aload_n G 0 rfl rfl dX2_holds_25 ?_
        refine r_get G (C := RX2) (T := TX2) (N := 2) kX2_holds_X2 n (cw_MS ad κ _ hn) rfl 1 (by decide) mX2_holds_f15 rfl rfl dX2_holds_26 ?_
        refine r_lstore_n G [2, 0] rfl rfl (by decide) dX2_holds_29 ?_
        refine r_lload_n G 1 rfl rfl dX2_holds_30 ?_
        refine r_iload_n G 0 rfl rfl dX2_holds_31 ?_
        refine r_bipush G (v := 64) (by decide) dX2_holds_32 ?_
        refine r_irem G (by decide) dX2_holds_34 ?_
        refine r_lushr G dX2_holds_35 ?_
        refine r_lconst G (v := 1) (by decide) dX2_holds_36 ?_
        refine r_land G dX2_holds_37 ?_
        refine r_lconst G (v := 0) (by decide) dX2_holds_38 ?_
        refine r_lcmp G dX2_holds_39 ?_
        refine r_if_eq G (tgt := 47) dX2_holds_40 (by decide) (fun c => ?_) (fun c => ?_)
        · rw [if_pos c] at h
          refine r_iconst G (v := 0) (by decide) dX2_holds_47 ?_
          exact hret _ _ _ _ _ _ dX2_holds_48 ⟨h, rfl⟩ rfl (Nat.le_of_ble_eq_true rfl) (Nat.le_of_ble_eq_true rfl)
        · rw [if_neg c] at h
          refine r_iconst G (v := 1) (by decide) dX2_holds_43 ?_
          refine r_goto G (tgt := 48) dX2_holds_44 (by decide) ?_
          exact hret _ _ _ _ _ _ dX2_holds_48 ⟨h, rfl⟩ rfl (Nat.le_of_ble_eq_true rfl) (Nat.le_of_ble_eq_true rfl)
      · rw [if_neg c] at h
        refine r_aload_n G 0 rfl rfl dX2_holds_18 ?_
        refine r_get G (C := RX2) (T := TX2) (N := 2) kX2_holds_X2 n (cw_MS ad κ _ hn) rfl 0 (by decide) mX2_holds_f9 rfl rfl dX2_holds_19 ?_
        refine r_goto G (tgt := 29) dX2_holds_22 (by decide) ?_
        refine r_lstore_n G [2, 0] rfl rfl (by decide) dX2_holds_29 ?_
        refine r_lload_n G 1 rfl rfl dX2_holds_30 ?_
        refine r_iload_n G 0 rfl rfl dX2_holds_31 ?_
        refine r_bipush G (v := 64) (by decide) dX2_holds_32 ?_
        refine r_irem G (by decide) dX2_holds_34 ?_
        refine r_lushr G dX2_holds_35 ?_
        refine r_lconst G (v := 1) (by decide) dX2_holds_36 ?_
        refine r_land G dX2_holds_37 ?_
        refine r_lconst G (v := 0) (by decide) dX2_holds_38 ?_
        refine r_lcmp G dX2_holds_39 ?_
        refine r_if_eq G (tgt := 47) dX2_holds_40 (by decide) (fun c => ?_) (fun c => ?_)
        · rw [if_pos c] at h
          refine r_iconst G (v := 0) (by decide) dX2_holds_47 ?_
          exact hret _ _ _ _ _ _ dX2_holds_48 ⟨h, rfl⟩ rfl (Nat.le_of_ble_eq_true rfl) (Nat.le_of_ble_eq_true rfl)
        · rw [if_neg c] at h
          refine r_iconst G (v := 1) (by decide) dX2_holds_43 ?_
          refine r_goto G (tgt := 48) dX2_holds_44 (by decide) ?_
          exact hret _ _ _ _ _ _ dX2_holds_48 ⟨h, rfl⟩ rfl (Nat.le_of_ble_eq_true rfl) (Nat.le_of_ble_eq_true rfl)
    · rw [if_neg c] at h
      refine r_iconst G (v := 0) (by decide) dX2_holds_10 ?_
      exact hret _ _ _ _ _ _ dX2_holds_11 ⟨h, rfl⟩ rfl (Nat.le_of_ble_eq_true rfl) (Nat.le_of_ble_eq_true rfl)
abbrev rmX2_flip : Room := { frames := 0, cells := 0, slots := 0, locals := 0 }
set_option maxRecDepth 20000 in
theorem kX2_flip_X2 : ∀ w ∈ u_ws RX2 TX2 2, w ∈ wsX2_flip := by decide +kernel
set_option maxRecDepth 20000 in
theorem mX2_flip_f15 : Cond.fieldLink RX2 15 "SetCouncil$MemberSet" "high" "J" ∈ wsX2_flip := by decide +kernel
set_option maxRecDepth 20000 in
theorem mX2_flip_f9 : Cond.fieldLink RX2 9 "SetCouncil$MemberSet" "low" "J" ∈ wsX2_flip := by decide +kernel
set_option maxHeartbeats 4000000 in
set_option maxRecDepth 100000 in
theorem qX2_flip {E : evT} {l : Launch} {D : va_G} {ad : Nat → Nat} {κ : Nat → ClassId} (hE : EvOk E) (n : Nat) (hn : n < 55) (p0 : Int32) (s : cS) {o : (cS)} (h : fX2_flip n p0 s = some o) : Cv l yX2_flip wsX2_flip rmX2_flip (cW ad κ) E D (tyA κ)  [.ref (ad n), .int p0] s (fun s2 => o = s2) := by
  rw [fX2_flip] at h
  refine s_v (cc := cX2_flip) (nL := 4) (own := RX2) hE (cW_WA ad κ) (by decide) rfl rfl (Nat.le_of_ble_eq_true rfl) (fun Γ G hret => ?_)
  refine r_lconst G (v := 1) (by decide) dX2_flip_0 ?_
  refine r_iload_n G 1 rfl rfl dX2_flip_1 ?_
  refine r_bipush G (v := 64) (by decide) dX2_flip_2 ?_
  refine r_irem G (by decide) dX2_flip_4 ?_
  refine r_lshl G dX2_flip_5 ?_
  refine r_lstore_n G [1, 2, 0] rfl rfl (by decide) dX2_flip_6 ?_
  refine r_iload_n G 1 rfl rfl dX2_flip_7 ?_
  refine r_bipush G (v := 64) (by decide) dX2_flip_8 ?_
  refine r_icmp_ge G (tgt := 26) dX2_flip_10 (by decide) (fun c => ?_) (fun c => ?_)
  · rw [if_pos c] at h
    refine r_aload_n G 0 rfl rfl dX2_flip_26 ?_
    refine r_dup G rfl dX2_flip_27 ?_
    refine r_get G (C := RX2) (T := TX2) (N := 2) kX2_flip_X2 n (cw_MS ad κ _ hn) rfl 1 (by decide) mX2_flip_f15 rfl rfl dX2_flip_28 ?_
    refine r_lload_n G 2 rfl rfl dX2_flip_31 ?_
    refine r_lxor G dX2_flip_32 ?_
    refine r_put G (C := RX2) (T := TX2) (N := 2) kX2_flip_X2 tyX2 tyX2_ok nmX2 n (cw_MS ad κ _ hn) rfl 1 (by decide) mX2_flip_f15 rfl rfl (tyX2_ok 1 (by decide)) rfl rfl (Nat.le_of_ble_eq_true rfl) (cu_H ad κ _ hn _) dX2_flip_33 ?_
    exact hret _ _ _ _ _ dX2_flip_36 (Option.some.inj h).symm (Nat.le_of_ble_eq_true rfl) (Nat.le_of_ble_eq_true rfl)
  · rw [if_neg c] at h
    refine r_aload_n G 0 rfl rfl dX2_flip_13 ?_
    refine r_dup G rfl dX2_flip_14 ?_
    refine r_get G (C := RX2) (T := TX2) (N := 2) kX2_flip_X2 n (cw_MS ad κ _ hn) rfl 0 (by decide) mX2_flip_f9 rfl rfl dX2_flip_15 ?_
    refine r_lload_n G 2 rfl rfl dX2_flip_18 ?_
    refine r_lxor G dX2_flip_19 ?_
    refine r_put G (C := RX2) (T := TX2) (N := 2) kX2_flip_X2 tyX2 tyX2_ok nmX2 n (cw_MS ad κ _ hn) rfl 0 (by decide) mX2_flip_f9 rfl rfl (tyX2_ok 0 (by decide)) rfl rfl (Nat.le_of_ble_eq_true rfl) (cu_L ad κ _ hn _) dX2_flip_20 ?_
    refine r_goto G (tgt := 36) dX2_flip_23 (by decide) ?_
    exact hret _ _ _ _ _ dX2_flip_36 (Option.some.inj h).symm (Nat.le_of_ble_eq_true rfl) (Nat.le_of_ble_eq_true rfl)
abbrev rmX2_put : Room := { frames := 1, cells := 0, slots := 0, locals := 23 }
theorem hdX2_holds : yX2_holds.cls = RX2 ∧ yX2_holds.cls ≠ "java/lang/invoke/MethodHandle" ∧ yX2_holds.cls ≠ "java/lang/invoke/VarHandle" ∧ (parseMethodDescriptor yX2_holds.desc).map (fun d => d.parameters.length) = some 1 := by decide +kernel
theorem hdX2_flip : yX2_flip.cls = RX2 ∧ yX2_flip.cls ≠ "java/lang/invoke/MethodHandle" ∧ yX2_flip.cls ≠ "java/lang/invoke/VarHandle" ∧ (parseMethodDescriptor yX2_flip.desc).map (fun d => d.parameters.length) = some 1 := by decide +kernel
set_option maxHeartbeats 4000000 in
set_option maxRecDepth 100000 in
theorem qX2_put {E : evT} {l : Launch} {D : va_G} {ad : Nat → Nat} {κ : Nat → ClassId} (hE : EvOk E) (n : Nat) (hn : n < 55) (p0 : Int32) (s : cS) {o : (Int32 × cS)} (h : fX2_put n p0 s = some o) : Ci l yX2_put wsX2_put rmX2_put (cW ad κ) E D (tyA κ) .boolean [.ref (ad n), .int p0] s (fun r s2 => o = (r, s2)) := by
  rw [fX2_put] at h
  refine s_i (cc := cX2_put) (nL := 2) (own := RX2) hE (cW_WA ad κ) (plainFor_of_name (by decide)) rfl rfl (Nat.le_of_ble_eq_true rfl) (fun Γ G hret => ?_)
  refine r_iload_n G 1 rfl rfl dX2_put_0 ?_
  refine r_if_lt G (tgt := 18) dX2_put_1 (by decide) (fun c => ?_) (fun c => ?_)
  · rw [if_pos c] at h
    refine r_iconst G (v := 0) (by decide) dX2_put_18 ?_
    exact hret _ _ _ _ _ _ dX2_put_19 (Option.some.inj h).symm rfl (Nat.le_of_ble_eq_true rfl) (Nat.le_of_ble_eq_true rfl)
  · rw [if_neg c] at h
    refine r_iload_n G 1 rfl rfl dX2_put_4 ?_
    refine r_bipush G (v := 102) (by decide) dX2_put_5 ?_
    refine r_icmp_ge G (tgt := 18) dX2_put_7 (by decide) (fun c => ?_) (fun c => ?_)
    · rw [if_pos c] at h
      refine r_iconst G (v := 0) (by decide) dX2_put_18 ?_
      exact hret _ _ _ _ _ _ dX2_put_19 (Option.some.inj h).symm rfl (Nat.le_of_ble_eq_true rfl) (Nat.le_of_ble_eq_true rfl)
    · rw [if_neg c] at h
      refine r_aload_n G 0 rfl rfl dX2_put_10 ?_
      refine r_iload_n G 1 rfl rfl dX2_put_11 ?_
      refine r_callVi G [.int p0] (qX2_holds hE n hn p0 _) ⟨n, 2, _, _, rfl, (cw_MS ad κ _ hn), rfl⟩ gX2_put_X2_holds rfl hdX2_holds ⟨Nat.le_of_ble_eq_true rfl, Nat.le_of_ble_eq_true rfl⟩ (Nat.le_of_ble_eq_true rfl) rfl ⟨Nat.le_of_ble_eq_true rfl, Nat.le_of_ble_eq_true rfl⟩ rfl rfl dX2_put_12 (fun r1 s1 hp hn1 => ?_)
      obtain ⟨rfl, hs⟩ := hp
      have hs := hs.symm
      subst hs
      refine r_if_eq G (tgt := 20) dX2_put_15 (by decide) (fun c => ?_) (fun c => ?_)
      · rw [if_pos c] at h
        refine r_aload_n G 0 rfl rfl dX2_put_20 ?_
        refine r_iload_n G 1 rfl rfl dX2_put_21 ?_
        obtain ⟨o2, e2, h⟩ := ob h
        refine r_callVv G [.int p0] (qX2_flip hE n hn p0 _ e2) ⟨n, 2, _, _, rfl, (cw_MS ad κ _ hn), rfl⟩ gX2_put_X2_flip rfl hdX2_flip ⟨Nat.le_of_ble_eq_true rfl, Nat.le_of_ble_eq_true rfl⟩ (Nat.le_of_ble_eq_true rfl) rfl ⟨Nat.le_of_ble_eq_true rfl, Nat.le_of_ble_eq_true rfl⟩ rfl rfl dX2_put_22 (fun s2 hp => ?_)
        have hp := hp.symm
        subst hp
        try dsimp only at h
        refine r_iconst G (v := 1) (by decide) dX2_put_25 ?_
        exact hret _ _ _ _ _ _ dX2_put_26 (Option.some.inj h).symm rfl (Nat.le_of_ble_eq_true rfl) (Nat.le_of_ble_eq_true rfl)
      · rw [if_neg c] at h
        refine r_iconst G (v := 0) (by decide) dX2_put_18 ?_
        exact hret _ _ _ _ _ _ dX2_put_19 (Option.some.inj h).symm rfl (Nat.le_of_ble_eq_true rfl) (Nat.le_of_ble_eq_true rfl)
abbrev rmX2_takeOut : Room := { frames := 1, cells := 0, slots := 0, locals := 23 }
set_option maxHeartbeats 4000000 in
set_option maxRecDepth 100000 in
theorem qX2_takeOut {E : evT} {l : Launch} {D : va_G} {ad : Nat → Nat} {κ : Nat → ClassId} (hE : EvOk E) (n : Nat) (hn : n < 55) (p0 : Int32) (s : cS) {o : (Int32 × cS)} (h : fX2_takeOut n p0 s = some o) : Ci l yX2_takeOut wsX2_takeOut rmX2_takeOut (cW ad κ) E D (tyA κ) .boolean [.ref (ad n), .int p0] s (fun r s2 => o = (r, s2)) := by
  rw [fX2_takeOut] at h
  refine s_i (cc := cX2_takeOut) (nL := 2) (own := RX2) hE (cW_WA ad κ) (plainFor_of_name (by decide)) rfl rfl (Nat.le_of_ble_eq_true rfl) (fun Γ G hret => ?_)
  refine r_aload_n G 0 rfl rfl dX2_takeOut_0 ?_
  refine r_iload_n G 1 rfl rfl dX2_takeOut_1 ?_
  refine r_callVi G [.int p0] (qX2_holds hE n hn p0 _) ⟨n, 2, _, _, rfl, (cw_MS ad κ _ hn), rfl⟩ gX2_takeOut_X2_holds rfl hdX2_holds ⟨Nat.le_of_ble_eq_true rfl, Nat.le_of_ble_eq_true rfl⟩ (Nat.le_of_ble_eq_true rfl) rfl ⟨Nat.le_of_ble_eq_true rfl, Nat.le_of_ble_eq_true rfl⟩ rfl rfl dX2_takeOut_2 (fun r1 s1 hp hn1 => ?_)
  obtain ⟨rfl, hs⟩ := hp
  have hs := hs.symm
  subst hs
  refine r_if_ne G (tgt := 10) dX2_takeOut_5 (by decide) (fun c => ?_) (fun c => ?_)
  · rw [if_neg c] at h
    refine r_aload_n G 0 rfl rfl dX2_takeOut_10 ?_
    refine r_iload_n G 1 rfl rfl dX2_takeOut_11 ?_
    obtain ⟨o2, e2, h⟩ := ob h
    refine r_callVv G [.int p0] (qX2_flip hE n hn p0 _ e2) ⟨n, 2, _, _, rfl, (cw_MS ad κ _ hn), rfl⟩ gX2_takeOut_X2_flip rfl hdX2_flip ⟨Nat.le_of_ble_eq_true rfl, Nat.le_of_ble_eq_true rfl⟩ (Nat.le_of_ble_eq_true rfl) rfl ⟨Nat.le_of_ble_eq_true rfl, Nat.le_of_ble_eq_true rfl⟩ rfl rfl dX2_takeOut_12 (fun s2 hp => ?_)
    have hp := hp.symm
    subst hp
    try dsimp only at h
    refine r_iconst G (v := 1) (by decide) dX2_takeOut_15 ?_
    exact hret _ _ _ _ _ _ dX2_takeOut_16 (Option.some.inj h).symm rfl (Nat.le_of_ble_eq_true rfl) (Nat.le_of_ble_eq_true rfl)
  · rw [if_pos c] at h
    refine r_iconst G (v := 0) (by decide) dX2_takeOut_8 ?_
    exact hret _ _ _ _ _ _ dX2_takeOut_9 (Option.some.inj h).symm rfl (Nat.le_of_ble_eq_true rfl) (Nat.le_of_ble_eq_true rfl)
abbrev rmX2_empty : Room := { frames := 0, cells := 0, slots := 0, locals := 0 }
set_option maxRecDepth 20000 in
theorem kX2_empty_X2 : ∀ w ∈ u_ws RX2 TX2 2, w ∈ wsX2_empty := by decide +kernel
set_option maxRecDepth 20000 in
theorem mX2_empty_f9 : Cond.fieldLink RX2 9 "SetCouncil$MemberSet" "low" "J" ∈ wsX2_empty := by decide +kernel
set_option maxRecDepth 20000 in
theorem mX2_empty_f15 : Cond.fieldLink RX2 15 "SetCouncil$MemberSet" "high" "J" ∈ wsX2_empty := by decide +kernel
set_option maxHeartbeats 4000000 in
set_option maxRecDepth 100000 in
theorem qX2_empty {E : evT} {l : Launch} {D : va_G} {ad : Nat → Nat} {κ : Nat → ClassId} (hE : EvOk E) (n : Nat) (hn : n < 55) (s : cS) {o : (cS)} (h : fX2_empty n s = some o) : Cv l yX2_empty wsX2_empty rmX2_empty (cW ad κ) E D (tyA κ)  [.ref (ad n)] s (fun s2 => o = s2) := by
  rw [fX2_empty] at h
  refine s_v (cc := cX2_empty) (nL := 1) (own := RX2) hE (cW_WA ad κ) (by decide) rfl rfl (Nat.le_of_ble_eq_true rfl) (fun Γ G hret => ?_)
  refine r_aload_n G 0 rfl rfl dX2_empty_0 ?_
  refine r_lconst G (v := 0) (by decide) dX2_empty_1 ?_
  refine r_put G (C := RX2) (T := TX2) (N := 2) kX2_empty_X2 tyX2 tyX2_ok nmX2 n (cw_MS ad κ _ hn) rfl 0 (by decide) mX2_empty_f9 rfl rfl (tyX2_ok 0 (by decide)) rfl rfl (Nat.le_of_ble_eq_true rfl) (cu_L ad κ _ hn _) dX2_empty_2 ?_
  refine r_aload_n G 0 rfl rfl dX2_empty_5 ?_
  refine r_lconst G (v := 0) (by decide) dX2_empty_6 ?_
  refine r_put G (C := RX2) (T := TX2) (N := 2) kX2_empty_X2 tyX2 tyX2_ok nmX2 n (cw_MS ad κ _ hn) rfl 1 (by decide) mX2_empty_f15 rfl rfl (tyX2_ok 1 (by decide)) rfl rfl (Nat.le_of_ble_eq_true rfl) (cu_H ad κ _ hn _) dX2_empty_7 ?_
  exact hret _ _ _ _ _ dX2_empty_10 (Option.some.inj h).symm (Nat.le_of_ble_eq_true rfl) (Nat.le_of_ble_eq_true rfl)
abbrev rmX2_become : Room := { frames := 0, cells := 0, slots := 0, locals := 0 }
set_option maxRecDepth 20000 in
theorem kX2_become_X2 : ∀ w ∈ u_ws RX2 TX2 2, w ∈ wsX2_become := by decide +kernel
set_option maxRecDepth 20000 in
theorem mX2_become_f9 : Cond.fieldLink RX2 9 "SetCouncil$MemberSet" "low" "J" ∈ wsX2_become := by decide +kernel
set_option maxRecDepth 20000 in
theorem mX2_become_f15 : Cond.fieldLink RX2 15 "SetCouncil$MemberSet" "high" "J" ∈ wsX2_become := by decide +kernel
set_option maxHeartbeats 4000000 in
set_option maxRecDepth 100000 in
theorem qX2_become {E : evT} {l : Launch} {D : va_G} {ad : Nat → Nat} {κ : Nat → ClassId} (hE : EvOk E) (n : Nat) (hn : n < 55) (p0 : Nat) (hp0 : p0 < 55) (s : cS) {o : (cS)} (h : fX2_become n p0 s = some o) : Cv l yX2_become wsX2_become rmX2_become (cW ad κ) E D (tyA κ)  [.ref (ad n), .ref (ad p0)] s (fun s2 => o = s2) := by
  rw [fX2_become] at h
  refine s_v (cc := cX2_become) (nL := 2) (own := RX2) hE (cW_WA ad κ) (by decide) rfl rfl (Nat.le_of_ble_eq_true rfl) (fun Γ G hret => ?_)
  refine r_aload_n G 0 rfl rfl dX2_become_0 ?_
  refine r_aload_n G 1 rfl rfl dX2_become_1 ?_
  refine r_get G (C := RX2) (T := TX2) (N := 2) kX2_become_X2 p0 (cw_MS ad κ _ hp0) rfl 0 (by decide) mX2_become_f9 rfl rfl dX2_become_2 ?_
  refine r_put G (C := RX2) (T := TX2) (N := 2) kX2_become_X2 tyX2 tyX2_ok nmX2 n (cw_MS ad κ _ hn) rfl 0 (by decide) mX2_become_f9 rfl rfl (tyX2_ok 0 (by decide)) rfl rfl (Nat.le_of_ble_eq_true rfl) (cu_L ad κ _ hn _) dX2_become_5 ?_
  refine r_aload_n G 0 rfl rfl dX2_become_8 ?_
  refine r_aload_n G 1 rfl rfl dX2_become_9 ?_
  refine r_get G (C := RX2) (T := TX2) (N := 2) kX2_become_X2 p0 (cw_MS ad κ _ hp0) rfl 1 (by decide) mX2_become_f15 rfl rfl dX2_become_10 ?_
  refine r_put G (C := RX2) (T := TX2) (N := 2) kX2_become_X2 tyX2 tyX2_ok nmX2 n (cw_MS ad κ _ hn) rfl 1 (by decide) mX2_become_f15 rfl rfl (tyX2_ok 1 (by decide)) rfl rfl (Nat.le_of_ble_eq_true rfl) (cu_H ad κ _ hn _) dX2_become_13 ?_
  exact hret _ _ _ _ _ dX2_become_16 (Option.some.inj h).symm (Nat.le_of_ble_eq_true rfl) (Nat.le_of_ble_eq_true rfl)
abbrev rmX2_combine : Room := { frames := 0, cells := 0, slots := 0, locals := 0 }
set_option maxRecDepth 20000 in
theorem kX2_combine_X2 : ∀ w ∈ u_ws RX2 TX2 2, w ∈ wsX2_combine := by decide +kernel
set_option maxRecDepth 20000 in
theorem mX2_combine_f9 : Cond.fieldLink RX2 9 "SetCouncil$MemberSet" "low" "J" ∈ wsX2_combine := by decide +kernel
set_option maxRecDepth 20000 in
theorem mX2_combine_f15 : Cond.fieldLink RX2 15 "SetCouncil$MemberSet" "high" "J" ∈ wsX2_combine := by decide +kernel
set_option maxRecDepth 20000 in
theorem mX2_combine_c33 : Cond.constantLong RX2 33 (-1) ∈ wsX2_combine := by decide +kernel
set_option maxHeartbeats 4000000 in
set_option maxRecDepth 100000 in
theorem qX2_combine {E : evT} {l : Launch} {D : va_G} {ad : Nat → Nat} {κ : Nat → ClassId} (hE : EvOk E) (n : Nat) (hn : n < 55) (p0 : Int32) (p1 : Nat) (hp1 : p1 < 55) (s : cS) {o : (Int32 × cS)} (h : fX2_combine n p0 p1 s = some o) : Ci l yX2_combine wsX2_combine rmX2_combine (cW ad κ) E D (tyA κ) .boolean [.ref (ad n), .int p0, .ref (ad p1)] s (fun r s2 => o = (r, s2)) := by
  rw [fX2_combine] at h
  refine s_i (cc := cX2_combine) (nL := 7) (own := RX2) hE (cW_WA ad κ) (plainFor_of_name (by decide)) rfl rfl (Nat.le_of_ble_eq_true rfl) (fun Γ G hret => ?_)
  refine r_aload_n G 2 rfl rfl dX2_combine_0 ?_
  refine r_ifnonnull G (tgt := 14) dX2_combine_1 (by decide) ?_
  refine r_aload_n G 0 rfl rfl dX2_combine_14 ?_
  refine r_get G (C := RX2) (T := TX2) (N := 2) kX2_combine_X2 n (cw_MS ad κ _ hn) rfl 0 (by decide) mX2_combine_f9 rfl rfl dX2_combine_15 ?_
  refine r_lstore_n G [1, 2, 3, 0] rfl rfl (by decide) dX2_combine_18 ?_
  refine r_aload_n G 0 rfl rfl dX2_combine_19 ?_
  refine r_get G (C := RX2) (T := TX2) (N := 2) kX2_combine_X2 n (cw_MS ad κ _ hn) rfl 1 (by decide) mX2_combine_f15 rfl rfl dX2_combine_20 ?_
  refine r_lstore G [1, 2, 3, 4, 0] rfl (by decide) dX2_combine_23 ?_
  refine r_iload_n G 1 rfl rfl dX2_combine_25 ?_
  by_cases c0 : p0 = 0
  · rw [if_pos c0] at h
    refine r_tableIn G (tgt := 52) dX2_combine_26 (by rw [c0]; decide) (by rw [c0]; decide) (by rw [c0]; rfl) (by decide) ?_
    refine r_aload_n G 0 rfl rfl dX2_combine_52 ?_
    refine r_dup G rfl dX2_combine_53 ?_
    refine r_get G (C := RX2) (T := TX2) (N := 2) kX2_combine_X2 n (cw_MS ad κ _ hn) rfl 0 (by decide) mX2_combine_f9 rfl rfl dX2_combine_54 ?_
    refine r_aload_n G 2 rfl rfl dX2_combine_57 ?_
    refine r_get G (C := RX2) (T := TX2) (N := 2) kX2_combine_X2 p1 (cw_MS ad κ _ hp1) rfl 0 (by decide) mX2_combine_f9 rfl rfl dX2_combine_58 ?_
    refine r_lor G dX2_combine_61 ?_
    refine r_put G (C := RX2) (T := TX2) (N := 2) kX2_combine_X2 tyX2 tyX2_ok nmX2 n (cw_MS ad κ _ hn) rfl 0 (by decide) mX2_combine_f9 rfl rfl (tyX2_ok 0 (by decide)) rfl rfl (Nat.le_of_ble_eq_true rfl) (cu_L ad κ _ hn _) dX2_combine_62 ?_
    refine r_aload_n G 0 rfl rfl dX2_combine_65 ?_
    refine r_dup G rfl dX2_combine_66 ?_
    refine r_get G (C := RX2) (T := TX2) (N := 2) kX2_combine_X2 n (cw_MS ad κ _ hn) rfl 1 (by decide) mX2_combine_f15 rfl rfl dX2_combine_67 ?_
    refine r_aload_n G 2 rfl rfl dX2_combine_70 ?_
    refine r_get G (C := RX2) (T := TX2) (N := 2) kX2_combine_X2 p1 (cw_MS ad κ _ hp1) rfl 1 (by decide) mX2_combine_f15 rfl rfl dX2_combine_71 ?_
    refine r_lor G dX2_combine_74 ?_
    refine r_put G (C := RX2) (T := TX2) (N := 2) kX2_combine_X2 tyX2 tyX2_ok nmX2 n (cw_MS ad κ _ hn) rfl 1 (by decide) mX2_combine_f15 rfl rfl (tyX2_ok 1 (by decide)) rfl rfl (Nat.le_of_ble_eq_true rfl) (cu_H ad κ _ hn _) dX2_combine_75 ?_
    refine r_goto G (tgt := 168) dX2_combine_78 (by decide) ?_
    refine r_aload_n G 0 rfl rfl dX2_combine_168 ?_
    refine r_get G (C := RX2) (T := TX2) (N := 2) kX2_combine_X2 n (cw_MS ad κ _ hn) rfl 0 (by decide) mX2_combine_f9 rfl rfl dX2_combine_169 ?_
    refine r_lload_n G 3 rfl rfl dX2_combine_172 ?_
    refine r_lcmp G dX2_combine_173 ?_
    refine r_if_ne G (tgt := 187) dX2_combine_174 (by decide) (fun c => ?_) (fun c => ?_)
    · rw [if_neg c] at h
      refine r_iconst G (v := 1) (by decide) dX2_combine_187 ?_
      refine r_goto G (tgt := 192) dX2_combine_188 (by decide) ?_
      exact hret _ _ _ _ _ _ dX2_combine_192 (Option.some.inj h).symm rfl (Nat.le_of_ble_eq_true rfl) (Nat.le_of_ble_eq_true rfl)
    · rw [if_pos c] at h
      refine r_aload_n G 0 rfl rfl dX2_combine_177 ?_
      refine r_get G (C := RX2) (T := TX2) (N := 2) kX2_combine_X2 n (cw_MS ad κ _ hn) rfl 1 (by decide) mX2_combine_f15 rfl rfl dX2_combine_178 ?_
      refine r_lload G 4 rfl dX2_combine_181 ?_
      refine r_lcmp G dX2_combine_183 ?_
      refine r_if_eq G (tgt := 191) dX2_combine_184 (by decide) (fun c => ?_) (fun c => ?_)
      · rw [if_pos c] at h
        refine r_iconst G (v := 0) (by decide) dX2_combine_191 ?_
        exact hret _ _ _ _ _ _ dX2_combine_192 (Option.some.inj h).symm rfl (Nat.le_of_ble_eq_true rfl) (Nat.le_of_ble_eq_true rfl)
      · rw [if_neg c] at h
        refine r_iconst G (v := 1) (by decide) dX2_combine_187 ?_
        refine r_goto G (tgt := 192) dX2_combine_188 (by decide) ?_
        exact hret _ _ _ _ _ _ dX2_combine_192 (Option.some.inj h).symm rfl (Nat.le_of_ble_eq_true rfl) (Nat.le_of_ble_eq_true rfl)
  · rw [if_neg c0] at h
    by_cases c1 : p0 = 1
    · rw [if_pos c1] at h
      refine r_tableIn G (tgt := 81) dX2_combine_26 (by rw [c1]; decide) (by rw [c1]; decide) (by rw [c1]; rfl) (by decide) ?_
      refine r_aload_n G 0 rfl rfl dX2_combine_81 ?_
      refine r_dup G rfl dX2_combine_82 ?_
      refine r_get G (C := RX2) (T := TX2) (N := 2) kX2_combine_X2 n (cw_MS ad κ _ hn) rfl 0 (by decide) mX2_combine_f9 rfl rfl dX2_combine_83 ?_
      refine r_aload_n G 2 rfl rfl dX2_combine_86 ?_
      refine r_get G (C := RX2) (T := TX2) (N := 2) kX2_combine_X2 p1 (cw_MS ad κ _ hp1) rfl 0 (by decide) mX2_combine_f9 rfl rfl dX2_combine_87 ?_
      refine r_land G dX2_combine_90 ?_
      refine r_put G (C := RX2) (T := TX2) (N := 2) kX2_combine_X2 tyX2 tyX2_ok nmX2 n (cw_MS ad κ _ hn) rfl 0 (by decide) mX2_combine_f9 rfl rfl (tyX2_ok 0 (by decide)) rfl rfl (Nat.le_of_ble_eq_true rfl) (cu_L ad κ _ hn _) dX2_combine_91 ?_
      refine r_aload_n G 0 rfl rfl dX2_combine_94 ?_
      refine r_dup G rfl dX2_combine_95 ?_
      refine r_get G (C := RX2) (T := TX2) (N := 2) kX2_combine_X2 n (cw_MS ad κ _ hn) rfl 1 (by decide) mX2_combine_f15 rfl rfl dX2_combine_96 ?_
      refine r_aload_n G 2 rfl rfl dX2_combine_99 ?_
      refine r_get G (C := RX2) (T := TX2) (N := 2) kX2_combine_X2 p1 (cw_MS ad κ _ hp1) rfl 1 (by decide) mX2_combine_f15 rfl rfl dX2_combine_100 ?_
      refine r_land G dX2_combine_103 ?_
      refine r_put G (C := RX2) (T := TX2) (N := 2) kX2_combine_X2 tyX2 tyX2_ok nmX2 n (cw_MS ad κ _ hn) rfl 1 (by decide) mX2_combine_f15 rfl rfl (tyX2_ok 1 (by decide)) rfl rfl (Nat.le_of_ble_eq_true rfl) (cu_H ad κ _ hn _) dX2_combine_104 ?_
      refine r_goto G (tgt := 168) dX2_combine_107 (by decide) ?_
      refine r_aload_n G 0 rfl rfl dX2_combine_168 ?_
      refine r_get G (C := RX2) (T := TX2) (N := 2) kX2_combine_X2 n (cw_MS ad κ _ hn) rfl 0 (by decide) mX2_combine_f9 rfl rfl dX2_combine_169 ?_
      refine r_lload_n G 3 rfl rfl dX2_combine_172 ?_
      refine r_lcmp G dX2_combine_173 ?_
      refine r_if_ne G (tgt := 187) dX2_combine_174 (by decide) (fun c => ?_) (fun c => ?_)
      · rw [if_neg c] at h
        refine r_iconst G (v := 1) (by decide) dX2_combine_187 ?_
        refine r_goto G (tgt := 192) dX2_combine_188 (by decide) ?_
        exact hret _ _ _ _ _ _ dX2_combine_192 (Option.some.inj h).symm rfl (Nat.le_of_ble_eq_true rfl) (Nat.le_of_ble_eq_true rfl)
      · rw [if_pos c] at h
        refine r_aload_n G 0 rfl rfl dX2_combine_177 ?_
        refine r_get G (C := RX2) (T := TX2) (N := 2) kX2_combine_X2 n (cw_MS ad κ _ hn) rfl 1 (by decide) mX2_combine_f15 rfl rfl dX2_combine_178 ?_
        refine r_lload G 4 rfl dX2_combine_181 ?_
        refine r_lcmp G dX2_combine_183 ?_
        refine r_if_eq G (tgt := 191) dX2_combine_184 (by decide) (fun c => ?_) (fun c => ?_)
        · rw [if_pos c] at h
          refine r_iconst G (v := 0) (by decide) dX2_combine_191 ?_
          exact hret _ _ _ _ _ _ dX2_combine_192 (Option.some.inj h).symm rfl (Nat.le_of_ble_eq_true rfl) (Nat.le_of_ble_eq_true rfl)
        · rw [if_neg c] at h
          refine r_iconst G (v := 1) (by decide) dX2_combine_187 ?_
          refine r_goto G (tgt := 192) dX2_combine_188 (by decide) ?_
          exact hret _ _ _ _ _ _ dX2_combine_192 (Option.some.inj h).symm rfl (Nat.le_of_ble_eq_true rfl) (Nat.le_of_ble_eq_true rfl)
    · rw [if_neg c1] at h
      by_cases c2 : p0 = 2
      · rw [if_pos c2] at h
        refine r_tableIn G (tgt := 110) dX2_combine_26 (by rw [c2]; decide) (by rw [c2]; decide) (by rw [c2]; rfl) (by decide) ?_
        refine r_aload_n G 0 rfl rfl dX2_combine_110 ?_
        refine r_lload_n G 3 rfl rfl dX2_combine_111 ?_
        refine r_aload_n G 2 rfl rfl dX2_combine_112 ?_
        refine r_get G (C := RX2) (T := TX2) (N := 2) kX2_combine_X2 p1 (cw_MS ad κ _ hp1) rfl 0 (by decide) mX2_combine_f9 rfl rfl dX2_combine_113 ?_
        refine r_ldc2 G mX2_combine_c33 dX2_combine_116 ?_
        refine r_lxor G dX2_combine_119 ?_
        refine r_land G dX2_combine_120 ?_
        refine r_put G (C := RX2) (T := TX2) (N := 2) kX2_combine_X2 tyX2 tyX2_ok nmX2 n (cw_MS ad κ _ hn) rfl 0 (by decide) mX2_combine_f9 rfl rfl (tyX2_ok 0 (by decide)) rfl rfl (Nat.le_of_ble_eq_true rfl) (cu_L ad κ _ hn _) dX2_combine_121 ?_
        refine r_aload_n G 0 rfl rfl dX2_combine_124 ?_
        refine r_lload G 4 rfl dX2_combine_125 ?_
        refine r_aload_n G 2 rfl rfl dX2_combine_127 ?_
        refine r_get G (C := RX2) (T := TX2) (N := 2) kX2_combine_X2 p1 (cw_MS ad κ _ hp1) rfl 1 (by decide) mX2_combine_f15 rfl rfl dX2_combine_128 ?_
        refine r_ldc2 G mX2_combine_c33 dX2_combine_131 ?_
        refine r_lxor G dX2_combine_134 ?_
        refine r_land G dX2_combine_135 ?_
        refine r_put G (C := RX2) (T := TX2) (N := 2) kX2_combine_X2 tyX2 tyX2_ok nmX2 n (cw_MS ad κ _ hn) rfl 1 (by decide) mX2_combine_f15 rfl rfl (tyX2_ok 1 (by decide)) rfl rfl (Nat.le_of_ble_eq_true rfl) (cu_H ad κ _ hn _) dX2_combine_136 ?_
        refine r_goto G (tgt := 168) dX2_combine_139 (by decide) ?_
        refine r_aload_n G 0 rfl rfl dX2_combine_168 ?_
        refine r_get G (C := RX2) (T := TX2) (N := 2) kX2_combine_X2 n (cw_MS ad κ _ hn) rfl 0 (by decide) mX2_combine_f9 rfl rfl dX2_combine_169 ?_
        refine r_lload_n G 3 rfl rfl dX2_combine_172 ?_
        refine r_lcmp G dX2_combine_173 ?_
        refine r_if_ne G (tgt := 187) dX2_combine_174 (by decide) (fun c => ?_) (fun c => ?_)
        · rw [if_neg c] at h
          refine r_iconst G (v := 1) (by decide) dX2_combine_187 ?_
          refine r_goto G (tgt := 192) dX2_combine_188 (by decide) ?_
          exact hret _ _ _ _ _ _ dX2_combine_192 (Option.some.inj h).symm rfl (Nat.le_of_ble_eq_true rfl) (Nat.le_of_ble_eq_true rfl)
        · rw [if_pos c] at h
          refine r_aload_n G 0 rfl rfl dX2_combine_177 ?_
          refine r_get G (C := RX2) (T := TX2) (N := 2) kX2_combine_X2 n (cw_MS ad κ _ hn) rfl 1 (by decide) mX2_combine_f15 rfl rfl dX2_combine_178 ?_
          refine r_lload G 4 rfl dX2_combine_181 ?_
          refine r_lcmp G dX2_combine_183 ?_
          refine r_if_eq G (tgt := 191) dX2_combine_184 (by decide) (fun c => ?_) (fun c => ?_)
          · rw [if_pos c] at h
            refine r_iconst G (v := 0) (by decide) dX2_combine_191 ?_
            exact hret _ _ _ _ _ _ dX2_combine_192 (Option.some.inj h).symm rfl (Nat.le_of_ble_eq_true rfl) (Nat.le_of_ble_eq_true rfl)
          · rw [if_neg c] at h
            refine r_iconst G (v := 1) (by decide) dX2_combine_187 ?_
            refine r_goto G (tgt := 192) dX2_combine_188 (by decide) ?_
            exact hret _ _ _ _ _ _ dX2_combine_192 (Option.some.inj h).symm rfl (Nat.le_of_ble_eq_true rfl) (Nat.le_of_ble_eq_true rfl)
      · rw [if_neg c2] at h
        refine r_tableOut G (tgt := 142) dX2_combine_26 (tsw 3 (lt_s (lt_s (lt_s (lt_0) c0) c1) c2)) (by decide) ?_
        refine r_aload_n G 0 rfl rfl dX2_combine_142 ?_
        refine r_dup G rfl dX2_combine_143 ?_
        refine r_get G (C := RX2) (T := TX2) (N := 2) kX2_combine_X2 n (cw_MS ad κ _ hn) rfl 0 (by decide) mX2_combine_f9 rfl rfl dX2_combine_144 ?_
        refine r_aload_n G 2 rfl rfl dX2_combine_147 ?_
        refine r_get G (C := RX2) (T := TX2) (N := 2) kX2_combine_X2 p1 (cw_MS ad κ _ hp1) rfl 0 (by decide) mX2_combine_f9 rfl rfl dX2_combine_148 ?_
        refine r_lxor G dX2_combine_151 ?_
        refine r_put G (C := RX2) (T := TX2) (N := 2) kX2_combine_X2 tyX2 tyX2_ok nmX2 n (cw_MS ad κ _ hn) rfl 0 (by decide) mX2_combine_f9 rfl rfl (tyX2_ok 0 (by decide)) rfl rfl (Nat.le_of_ble_eq_true rfl) (cu_L ad κ _ hn _) dX2_combine_152 ?_
        refine r_aload_n G 0 rfl rfl dX2_combine_155 ?_
        refine r_dup G rfl dX2_combine_156 ?_
        refine r_get G (C := RX2) (T := TX2) (N := 2) kX2_combine_X2 n (cw_MS ad κ _ hn) rfl 1 (by decide) mX2_combine_f15 rfl rfl dX2_combine_157 ?_
        refine r_aload_n G 2 rfl rfl dX2_combine_160 ?_
        refine r_get G (C := RX2) (T := TX2) (N := 2) kX2_combine_X2 p1 (cw_MS ad κ _ hp1) rfl 1 (by decide) mX2_combine_f15 rfl rfl dX2_combine_161 ?_
        refine r_lxor G dX2_combine_164 ?_
        refine r_put G (C := RX2) (T := TX2) (N := 2) kX2_combine_X2 tyX2 tyX2_ok nmX2 n (cw_MS ad κ _ hn) rfl 1 (by decide) mX2_combine_f15 rfl rfl (tyX2_ok 1 (by decide)) rfl rfl (Nat.le_of_ble_eq_true rfl) (cu_H ad κ _ hn _) dX2_combine_165 ?_
        refine r_aload_n G 0 rfl rfl dX2_combine_168 ?_
        refine r_get G (C := RX2) (T := TX2) (N := 2) kX2_combine_X2 n (cw_MS ad κ _ hn) rfl 0 (by decide) mX2_combine_f9 rfl rfl dX2_combine_169 ?_
        refine r_lload_n G 3 rfl rfl dX2_combine_172 ?_
        refine r_lcmp G dX2_combine_173 ?_
        refine r_if_ne G (tgt := 187) dX2_combine_174 (by decide) (fun c => ?_) (fun c => ?_)
        · rw [if_neg c] at h
          refine r_iconst G (v := 1) (by decide) dX2_combine_187 ?_
          refine r_goto G (tgt := 192) dX2_combine_188 (by decide) ?_
          exact hret _ _ _ _ _ _ dX2_combine_192 (Option.some.inj h).symm rfl (Nat.le_of_ble_eq_true rfl) (Nat.le_of_ble_eq_true rfl)
        · rw [if_pos c] at h
          refine r_aload_n G 0 rfl rfl dX2_combine_177 ?_
          refine r_get G (C := RX2) (T := TX2) (N := 2) kX2_combine_X2 n (cw_MS ad κ _ hn) rfl 1 (by decide) mX2_combine_f15 rfl rfl dX2_combine_178 ?_
          refine r_lload G 4 rfl dX2_combine_181 ?_
          refine r_lcmp G dX2_combine_183 ?_
          refine r_if_eq G (tgt := 191) dX2_combine_184 (by decide) (fun c => ?_) (fun c => ?_)
          · rw [if_pos c] at h
            refine r_iconst G (v := 0) (by decide) dX2_combine_191 ?_
            exact hret _ _ _ _ _ _ dX2_combine_192 (Option.some.inj h).symm rfl (Nat.le_of_ble_eq_true rfl) (Nat.le_of_ble_eq_true rfl)
          · rw [if_neg c] at h
            refine r_iconst G (v := 1) (by decide) dX2_combine_187 ?_
            refine r_goto G (tgt := 192) dX2_combine_188 (by decide) ?_
            exact hret _ _ _ _ _ _ dX2_combine_192 (Option.some.inj h).symm rfl (Nat.le_of_ble_eq_true rfl) (Nat.le_of_ble_eq_true rfl)
abbrev rmX2_holdsAll : Room := { frames := 0, cells := 0, slots := 0, locals := 0 }
set_option maxRecDepth 20000 in
theorem kX2_holdsAll_X2 : ∀ w ∈ u_ws RX2 TX2 2, w ∈ wsX2_holdsAll := by decide +kernel
set_option maxRecDepth 20000 in
theorem mX2_holdsAll_f9 : Cond.fieldLink RX2 9 "SetCouncil$MemberSet" "low" "J" ∈ wsX2_holdsAll := by decide +kernel
set_option maxRecDepth 20000 in
theorem mX2_holdsAll_c33 : Cond.constantLong RX2 33 (-1) ∈ wsX2_holdsAll := by decide +kernel
set_option maxRecDepth 20000 in
theorem mX2_holdsAll_f15 : Cond.fieldLink RX2 15 "SetCouncil$MemberSet" "high" "J" ∈ wsX2_holdsAll := by decide +kernel
set_option maxHeartbeats 4000000 in
set_option maxRecDepth 100000 in
theorem qX2_holdsAll {E : evT} {l : Launch} {D : va_G} {ad : Nat → Nat} {κ : Nat → ClassId} (hE : EvOk E) (n : Nat) (hn : n < 55) (p0 : Nat) (hp0 : p0 < 55) (s : cS) : Ci l yX2_holdsAll wsX2_holdsAll rmX2_holdsAll (cW ad κ) E D (tyA κ) .boolean [.ref (ad n), .ref (ad p0)] s (fun r s2 => r = fX2_holdsAll n p0 s ∧ s2 = s) := by
  obtain ⟨o, h⟩ : ∃ o, fX2_holdsAll n p0 s = o := ⟨_, rfl⟩
  rw [h]
  rw [fX2_holdsAll] at h
  refine s_i (cc := cX2_holdsAll) (nL := 2) (own := RX2) hE (cW_WA ad κ) (plainFor_of_name (by decide)) rfl rfl (Nat.le_of_ble_eq_true rfl) (fun Γ G hret => ?_)
  refine r_aload_n G 1 rfl rfl dX2_holdsAll_0 ?_
  refine r_ifnonnull G (tgt := 14) dX2_holdsAll_1 (by decide) ?_
  refine r_aload_n G 1 rfl rfl dX2_holdsAll_14 ?_
  refine r_get G (C := RX2) (T := TX2) (N := 2) kX2_holdsAll_X2 p0 (cw_MS ad κ _ hp0) rfl 0 (by decide) mX2_holdsAll_f9 rfl rfl dX2_holdsAll_15 ?_
  refine r_aload_n G 0 rfl rfl dX2_holdsAll_18 ?_
  refine r_get G (C := RX2) (T := TX2) (N := 2) kX2_holdsAll_X2 n (cw_MS ad κ _ hn) rfl 0 (by decide) mX2_holdsAll_f9 rfl rfl dX2_holdsAll_19 ?_
  refine r_ldc2 G mX2_holdsAll_c33 dX2_holdsAll_22 ?_
  refine r_lxor G dX2_holdsAll_25 ?_
  refine r_land G dX2_holdsAll_26 ?_
  refine r_lconst G (v := 0) (by decide) dX2_holdsAll_27 ?_
  refine r_lcmp G dX2_holdsAll_28 ?_
  refine r_if_ne G (tgt := 54) dX2_holdsAll_29 (by decide) (fun c => ?_) (fun c => ?_)
  · rw [if_neg c] at h
    refine r_iconst G (v := 0) (by decide) dX2_holdsAll_54 ?_
    exact hret _ _ _ _ _ _ dX2_holdsAll_55 ⟨h, rfl⟩ rfl (Nat.le_of_ble_eq_true rfl) (Nat.le_of_ble_eq_true rfl)
  · rw [if_pos c] at h
    refine r_aload_n G 1 rfl rfl dX2_holdsAll_32 ?_
    refine r_get G (C := RX2) (T := TX2) (N := 2) kX2_holdsAll_X2 p0 (cw_MS ad κ _ hp0) rfl 1 (by decide) mX2_holdsAll_f15 rfl rfl dX2_holdsAll_33 ?_
    refine r_aload_n G 0 rfl rfl dX2_holdsAll_36 ?_
    refine r_get G (C := RX2) (T := TX2) (N := 2) kX2_holdsAll_X2 n (cw_MS ad κ _ hn) rfl 1 (by decide) mX2_holdsAll_f15 rfl rfl dX2_holdsAll_37 ?_
    refine r_ldc2 G mX2_holdsAll_c33 dX2_holdsAll_40 ?_
    refine r_lxor G dX2_holdsAll_43 ?_
    refine r_land G dX2_holdsAll_44 ?_
    refine r_lconst G (v := 0) (by decide) dX2_holdsAll_45 ?_
    refine r_lcmp G dX2_holdsAll_46 ?_
    refine r_if_ne G (tgt := 54) dX2_holdsAll_47 (by decide) (fun c => ?_) (fun c => ?_)
    · rw [if_neg c] at h
      refine r_iconst G (v := 0) (by decide) dX2_holdsAll_54 ?_
      exact hret _ _ _ _ _ _ dX2_holdsAll_55 ⟨h, rfl⟩ rfl (Nat.le_of_ble_eq_true rfl) (Nat.le_of_ble_eq_true rfl)
    · rw [if_pos c] at h
      refine r_iconst G (v := 1) (by decide) dX2_holdsAll_50 ?_
      refine r_goto G (tgt := 55) dX2_holdsAll_51 (by decide) ?_
      exact hret _ _ _ _ _ _ dX2_holdsAll_55 ⟨h, rfl⟩ rfl (Nat.le_of_ble_eq_true rfl) (Nat.le_of_ble_eq_true rfl)
abbrev rmX2_sharesNone : Room := { frames := 0, cells := 0, slots := 0, locals := 0 }
set_option maxRecDepth 20000 in
theorem kX2_sharesNone_X2 : ∀ w ∈ u_ws RX2 TX2 2, w ∈ wsX2_sharesNone := by decide +kernel
set_option maxRecDepth 20000 in
theorem mX2_sharesNone_f9 : Cond.fieldLink RX2 9 "SetCouncil$MemberSet" "low" "J" ∈ wsX2_sharesNone := by decide +kernel
set_option maxRecDepth 20000 in
theorem mX2_sharesNone_f15 : Cond.fieldLink RX2 15 "SetCouncil$MemberSet" "high" "J" ∈ wsX2_sharesNone := by decide +kernel
set_option maxHeartbeats 4000000 in
set_option maxRecDepth 100000 in
theorem qX2_sharesNone {E : evT} {l : Launch} {D : va_G} {ad : Nat → Nat} {κ : Nat → ClassId} (hE : EvOk E) (n : Nat) (hn : n < 55) (p0 : Nat) (hp0 : p0 < 55) (s : cS) : Ci l yX2_sharesNone wsX2_sharesNone rmX2_sharesNone (cW ad κ) E D (tyA κ) .boolean [.ref (ad n), .ref (ad p0)] s (fun r s2 => r = fX2_sharesNone n p0 s ∧ s2 = s) := by
  obtain ⟨o, h⟩ : ∃ o, fX2_sharesNone n p0 s = o := ⟨_, rfl⟩
  rw [h]
  rw [fX2_sharesNone] at h
  refine s_i (cc := cX2_sharesNone) (nL := 2) (own := RX2) hE (cW_WA ad κ) (plainFor_of_name (by decide)) rfl rfl (Nat.le_of_ble_eq_true rfl) (fun Γ G hret => ?_)
  refine r_aload_n G 0 rfl rfl dX2_sharesNone_0 ?_
  refine r_get G (C := RX2) (T := TX2) (N := 2) kX2_sharesNone_X2 n (cw_MS ad κ _ hn) rfl 0 (by decide) mX2_sharesNone_f9 rfl rfl dX2_sharesNone_1 ?_
  refine r_aload_n G 1 rfl rfl dX2_sharesNone_4 ?_
  refine r_get G (C := RX2) (T := TX2) (N := 2) kX2_sharesNone_X2 p0 (cw_MS ad κ _ hp0) rfl 0 (by decide) mX2_sharesNone_f9 rfl rfl dX2_sharesNone_5 ?_
  refine r_land G dX2_sharesNone_8 ?_
  refine r_lconst G (v := 0) (by decide) dX2_sharesNone_9 ?_
  refine r_lcmp G dX2_sharesNone_10 ?_
  refine r_if_ne G (tgt := 32) dX2_sharesNone_11 (by decide) (fun c => ?_) (fun c => ?_)
  · rw [if_neg c] at h
    refine r_iconst G (v := 0) (by decide) dX2_sharesNone_32 ?_
    exact hret _ _ _ _ _ _ dX2_sharesNone_33 ⟨h, rfl⟩ rfl (Nat.le_of_ble_eq_true rfl) (Nat.le_of_ble_eq_true rfl)
  · rw [if_pos c] at h
    refine r_aload_n G 0 rfl rfl dX2_sharesNone_14 ?_
    refine r_get G (C := RX2) (T := TX2) (N := 2) kX2_sharesNone_X2 n (cw_MS ad κ _ hn) rfl 1 (by decide) mX2_sharesNone_f15 rfl rfl dX2_sharesNone_15 ?_
    refine r_aload_n G 1 rfl rfl dX2_sharesNone_18 ?_
    refine r_get G (C := RX2) (T := TX2) (N := 2) kX2_sharesNone_X2 p0 (cw_MS ad κ _ hp0) rfl 1 (by decide) mX2_sharesNone_f15 rfl rfl dX2_sharesNone_19 ?_
    refine r_land G dX2_sharesNone_22 ?_
    refine r_lconst G (v := 0) (by decide) dX2_sharesNone_23 ?_
    refine r_lcmp G dX2_sharesNone_24 ?_
    refine r_if_ne G (tgt := 32) dX2_sharesNone_25 (by decide) (fun c => ?_) (fun c => ?_)
    · rw [if_neg c] at h
      refine r_iconst G (v := 0) (by decide) dX2_sharesNone_32 ?_
      exact hret _ _ _ _ _ _ dX2_sharesNone_33 ⟨h, rfl⟩ rfl (Nat.le_of_ble_eq_true rfl) (Nat.le_of_ble_eq_true rfl)
    · rw [if_pos c] at h
      refine r_iconst G (v := 1) (by decide) dX2_sharesNone_28 ?_
      refine r_goto G (tgt := 33) dX2_sharesNone_29 (by decide) ?_
      exact hret _ _ _ _ _ _ dX2_sharesNone_33 ⟨h, rfl⟩ rfl (Nat.le_of_ble_eq_true rfl) (Nat.le_of_ble_eq_true rfl)
abbrev rmX2_sameAs : Room := { frames := 0, cells := 0, slots := 0, locals := 0 }
set_option maxRecDepth 20000 in
theorem kX2_sameAs_X2 : ∀ w ∈ u_ws RX2 TX2 2, w ∈ wsX2_sameAs := by decide +kernel
set_option maxRecDepth 20000 in
theorem mX2_sameAs_f9 : Cond.fieldLink RX2 9 "SetCouncil$MemberSet" "low" "J" ∈ wsX2_sameAs := by decide +kernel
set_option maxRecDepth 20000 in
theorem mX2_sameAs_f15 : Cond.fieldLink RX2 15 "SetCouncil$MemberSet" "high" "J" ∈ wsX2_sameAs := by decide +kernel
set_option maxHeartbeats 4000000 in
set_option maxRecDepth 100000 in
theorem qX2_sameAs {E : evT} {l : Launch} {D : va_G} {ad : Nat → Nat} {κ : Nat → ClassId} (hE : EvOk E) (n : Nat) (hn : n < 55) (p0 : Nat) (hp0 : p0 < 55) (s : cS) : Ci l yX2_sameAs wsX2_sameAs rmX2_sameAs (cW ad κ) E D (tyA κ) .boolean [.ref (ad n), .ref (ad p0)] s (fun r s2 => r = fX2_sameAs n p0 s ∧ s2 = s) := by
  obtain ⟨o, h⟩ : ∃ o, fX2_sameAs n p0 s = o := ⟨_, rfl⟩
  rw [h]
  rw [fX2_sameAs] at h
  refine s_i (cc := cX2_sameAs) (nL := 2) (own := RX2) hE (cW_WA ad κ) (plainFor_of_name (by decide)) rfl rfl (Nat.le_of_ble_eq_true rfl) (fun Γ G hret => ?_)
  refine r_aload_n G 0 rfl rfl dX2_sameAs_0 ?_
  refine r_get G (C := RX2) (T := TX2) (N := 2) kX2_sameAs_X2 n (cw_MS ad κ _ hn) rfl 0 (by decide) mX2_sameAs_f9 rfl rfl dX2_sameAs_1 ?_
  refine r_aload_n G 1 rfl rfl dX2_sameAs_4 ?_
  refine r_get G (C := RX2) (T := TX2) (N := 2) kX2_sameAs_X2 p0 (cw_MS ad κ _ hp0) rfl 0 (by decide) mX2_sameAs_f9 rfl rfl dX2_sameAs_5 ?_
  refine r_lcmp G dX2_sameAs_8 ?_
  refine r_if_ne G (tgt := 28) dX2_sameAs_9 (by decide) (fun c => ?_) (fun c => ?_)
  · rw [if_neg c] at h
    refine r_iconst G (v := 0) (by decide) dX2_sameAs_28 ?_
    exact hret _ _ _ _ _ _ dX2_sameAs_29 ⟨h, rfl⟩ rfl (Nat.le_of_ble_eq_true rfl) (Nat.le_of_ble_eq_true rfl)
  · rw [if_pos c] at h
    refine r_aload_n G 0 rfl rfl dX2_sameAs_12 ?_
    refine r_get G (C := RX2) (T := TX2) (N := 2) kX2_sameAs_X2 n (cw_MS ad κ _ hn) rfl 1 (by decide) mX2_sameAs_f15 rfl rfl dX2_sameAs_13 ?_
    refine r_aload_n G 1 rfl rfl dX2_sameAs_16 ?_
    refine r_get G (C := RX2) (T := TX2) (N := 2) kX2_sameAs_X2 p0 (cw_MS ad κ _ hp0) rfl 1 (by decide) mX2_sameAs_f15 rfl rfl dX2_sameAs_17 ?_
    refine r_lcmp G dX2_sameAs_20 ?_
    refine r_if_ne G (tgt := 28) dX2_sameAs_21 (by decide) (fun c => ?_) (fun c => ?_)
    · rw [if_neg c] at h
      refine r_iconst G (v := 0) (by decide) dX2_sameAs_28 ?_
      exact hret _ _ _ _ _ _ dX2_sameAs_29 ⟨h, rfl⟩ rfl (Nat.le_of_ble_eq_true rfl) (Nat.le_of_ble_eq_true rfl)
    · rw [if_pos c] at h
      refine r_iconst G (v := 1) (by decide) dX2_sameAs_24 ?_
      refine r_goto G (tgt := 29) dX2_sameAs_25 (by decide) ?_
      exact hret _ _ _ _ _ _ dX2_sameAs_29 ⟨h, rfl⟩ rfl (Nat.le_of_ble_eq_true rfl) (Nat.le_of_ble_eq_true rfl)
abbrev rmX2_comesBefore : Room := { frames := 0, cells := 0, slots := 0, locals := 0 }
set_option maxRecDepth 20000 in
theorem kX2_comesBefore_X2 : ∀ w ∈ u_ws RX2 TX2 2, w ∈ wsX2_comesBefore := by decide +kernel
set_option maxRecDepth 20000 in
theorem mX2_comesBefore_f9 : Cond.fieldLink RX2 9 "SetCouncil$MemberSet" "low" "J" ∈ wsX2_comesBefore := by decide +kernel
set_option maxRecDepth 20000 in
theorem mX2_comesBefore_f15 : Cond.fieldLink RX2 15 "SetCouncil$MemberSet" "high" "J" ∈ wsX2_comesBefore := by decide +kernel
set_option maxHeartbeats 4000000 in
set_option maxRecDepth 100000 in
theorem qX2_comesBefore {E : evT} {l : Launch} {D : va_G} {ad : Nat → Nat} {κ : Nat → ClassId} (hE : EvOk E) (n : Nat) (hn : n < 55) (p0 : Nat) (hp0 : p0 < 55) (s : cS) : Ci l yX2_comesBefore wsX2_comesBefore rmX2_comesBefore (cW ad κ) E D (tyA κ) .boolean [.ref (ad n), .ref (ad p0)] s (fun r s2 => r = fX2_comesBefore n p0 s ∧ s2 = s) := by
  obtain ⟨o, h⟩ : ∃ o, fX2_comesBefore n p0 s = o := ⟨_, rfl⟩
  rw [h]
  rw [fX2_comesBefore] at h
  refine s_i (cc := cX2_comesBefore) (nL := 4) (own := RX2) hE (cW_WA ad κ) (plainFor_of_name (by decide)) rfl rfl (Nat.le_of_ble_eq_true rfl) (fun Γ G hret => ?_)
  refine r_aload_n G 0 rfl rfl dX2_comesBefore_0 ?_
  refine r_get G (C := RX2) (T := TX2) (N := 2) kX2_comesBefore_X2 n (cw_MS ad κ _ hn) rfl 0 (by decide) mX2_comesBefore_f9 rfl rfl dX2_comesBefore_1 ?_
  refine r_aload_n G 1 rfl rfl dX2_comesBefore_4 ?_
  refine r_get G (C := RX2) (T := TX2) (N := 2) kX2_comesBefore_X2 p0 (cw_MS ad κ _ hp0) rfl 0 (by decide) mX2_comesBefore_f9 rfl rfl dX2_comesBefore_5 ?_
  refine r_lxor G dX2_comesBefore_8 ?_
  refine r_lstore_n G [1, 2, 0] rfl rfl (by decide) dX2_comesBefore_9 ?_
  refine r_lload_n G 2 rfl rfl dX2_comesBefore_10 ?_
  refine r_lconst G (v := 0) (by decide) dX2_comesBefore_11 ?_
  refine r_lcmp G dX2_comesBefore_12 ?_
  refine r_if_eq G (tgt := 36) dX2_comesBefore_13 (by decide) (fun c => ?_) (fun c => ?_)
  · rw [if_pos c] at h
    refine r_aload_n G 0 rfl rfl dX2_comesBefore_36 ?_
    refine r_get G (C := RX2) (T := TX2) (N := 2) kX2_comesBefore_X2 n (cw_MS ad κ _ hn) rfl 1 (by decide) mX2_comesBefore_f15 rfl rfl dX2_comesBefore_37 ?_
    refine r_aload_n G 1 rfl rfl dX2_comesBefore_40 ?_
    refine r_get G (C := RX2) (T := TX2) (N := 2) kX2_comesBefore_X2 p0 (cw_MS ad κ _ hp0) rfl 1 (by decide) mX2_comesBefore_f15 rfl rfl dX2_comesBefore_41 ?_
    refine r_lxor G dX2_comesBefore_44 ?_
    refine r_lstore_n G [1, 0] rfl rfl (by decide) dX2_comesBefore_45 ?_
    refine r_aload_n G 0 rfl rfl dX2_comesBefore_46 ?_
    refine r_get G (C := RX2) (T := TX2) (N := 2) kX2_comesBefore_X2 n (cw_MS ad κ _ hn) rfl 1 (by decide) mX2_comesBefore_f15 rfl rfl dX2_comesBefore_47 ?_
    refine r_lload_n G 1 rfl rfl dX2_comesBefore_50 ?_
    refine r_land G dX2_comesBefore_51 ?_
    refine r_lload_n G 1 rfl rfl dX2_comesBefore_52 ?_
    refine r_lneg G dX2_comesBefore_53 ?_
    refine r_land G dX2_comesBefore_54 ?_
    refine r_lconst G (v := 0) (by decide) dX2_comesBefore_55 ?_
    refine r_lcmp G dX2_comesBefore_56 ?_
    refine r_if_eq G (tgt := 64) dX2_comesBefore_57 (by decide) (fun c => ?_) (fun c => ?_)
    · rw [if_pos c] at h
      refine r_iconst G (v := 0) (by decide) dX2_comesBefore_64 ?_
      exact hret _ _ _ _ _ _ dX2_comesBefore_65 ⟨h, rfl⟩ rfl (Nat.le_of_ble_eq_true rfl) (Nat.le_of_ble_eq_true rfl)
    · rw [if_neg c] at h
      refine r_iconst G (v := 1) (by decide) dX2_comesBefore_60 ?_
      refine r_goto G (tgt := 65) dX2_comesBefore_61 (by decide) ?_
      exact hret _ _ _ _ _ _ dX2_comesBefore_65 ⟨h, rfl⟩ rfl (Nat.le_of_ble_eq_true rfl) (Nat.le_of_ble_eq_true rfl)
  · rw [if_neg c] at h
    refine r_aload_n G 0 rfl rfl dX2_comesBefore_16 ?_
    refine r_get G (C := RX2) (T := TX2) (N := 2) kX2_comesBefore_X2 n (cw_MS ad κ _ hn) rfl 0 (by decide) mX2_comesBefore_f9 rfl rfl dX2_comesBefore_17 ?_
    refine r_lload_n G 2 rfl rfl dX2_comesBefore_20 ?_
    refine r_land G dX2_comesBefore_21 ?_
    refine r_lload_n G 2 rfl rfl dX2_comesBefore_22 ?_
    refine r_lneg G dX2_comesBefore_23 ?_
    refine r_land G dX2_comesBefore_24 ?_
    refine r_lconst G (v := 0) (by decide) dX2_comesBefore_25 ?_
    refine r_lcmp G dX2_comesBefore_26 ?_
    refine r_if_eq G (tgt := 34) dX2_comesBefore_27 (by decide) (fun c => ?_) (fun c => ?_)
    · rw [if_pos c] at h
      refine r_iconst G (v := 0) (by decide) dX2_comesBefore_34 ?_
      exact hret _ _ _ _ _ _ dX2_comesBefore_35 ⟨h, rfl⟩ rfl (Nat.le_of_ble_eq_true rfl) (Nat.le_of_ble_eq_true rfl)
    · rw [if_neg c] at h
      refine r_iconst G (v := 1) (by decide) dX2_comesBefore_30 ?_
      refine r_goto G (tgt := 35) dX2_comesBefore_31 (by decide) ?_
      exact hret _ _ _ _ _ _ dX2_comesBefore_35 ⟨h, rfl⟩ rfl (Nat.le_of_ble_eq_true rfl) (Nat.le_of_ble_eq_true rfl)
abbrev rmX2_count : Room := { frames := 1, cells := 0, slots := 0, locals := 21 }
set_option maxRecDepth 20000 in
theorem kX2_count_X2 : ∀ w ∈ u_ws RX2 TX2 2, w ∈ wsX2_count := by decide +kernel
set_option maxRecDepth 20000 in
theorem mX2_count_f9 : Cond.fieldLink RX2 9 "SetCouncil$MemberSet" "low" "J" ∈ wsX2_count := by decide +kernel
theorem hdJ13_bitCount_95d88 : yJ13_bitCount_95d88.cls ≠ "java/lang/invoke/MethodHandle" ∧ yJ13_bitCount_95d88.cls ≠ "java/lang/invoke/VarHandle" ∧ (parseMethodDescriptor yJ13_bitCount_95d88.desc).map (fun d => d.parameters.length) = some 1 := by decide +kernel
set_option maxRecDepth 20000 in
theorem mX2_count_f15 : Cond.fieldLink RX2 15 "SetCouncil$MemberSet" "high" "J" ∈ wsX2_count := by decide +kernel
set_option maxHeartbeats 4000000 in
set_option maxRecDepth 100000 in
theorem qX2_count {E : evT} {l : Launch} {D : va_G} {ad : Nat → Nat} {κ : Nat → ClassId} (hE : EvOk E) (n : Nat) (hn : n < 55) (s : cS) : Ci l yX2_count wsX2_count rmX2_count (cW ad κ) E D (tyA κ) .int [.ref (ad n)] s (fun r s2 => r = fX2_count n s ∧ s2 = s) := by
  obtain ⟨o, h⟩ : ∃ o, fX2_count n s = o := ⟨_, rfl⟩
  rw [h]
  rw [fX2_count] at h
  refine s_i (cc := cX2_count) (nL := 1) (own := RX2) hE (cW_WA ad κ) (plainFor_of_name (by decide)) rfl rfl (Nat.le_of_ble_eq_true rfl) (fun Γ G hret => ?_)
  refine r_aload_n G 0 rfl rfl dX2_count_0 ?_
  refine r_get G (C := RX2) (T := TX2) (N := 2) kX2_count_X2 n (cw_MS ad κ _ hn) rfl 0 (by decide) mX2_count_f9 rfl rfl dX2_count_1 ?_
  refine r_callSi G [.long (sL s n)] (qJ13_bitCount_95d88 hE (sL s n) _) gX2_count_J13_bitCount_95d88 rfl hdJ13_bitCount_95d88 ⟨Nat.le_of_ble_eq_true rfl, Nat.le_of_ble_eq_true rfl⟩ (Nat.le_of_ble_eq_true rfl) rfl ⟨Nat.le_of_ble_eq_true rfl, Nat.le_of_ble_eq_true rfl⟩ rfl rfl dX2_count_4 (fun r1 s1 hp hn1 => ?_)
  obtain ⟨rfl, hs⟩ := hp
  have hs := hs.symm
  subst hs
  refine r_aload_n G 0 rfl rfl dX2_count_7 ?_
  refine r_get G (C := RX2) (T := TX2) (N := 2) kX2_count_X2 n (cw_MS ad κ _ hn) rfl 1 (by decide) mX2_count_f15 rfl rfl dX2_count_8 ?_
  refine r_callSi G [.long (sH s n)] (qJ13_bitCount_95d88 hE (sH s n) _) gX2_count_J13_bitCount_95d88 rfl hdJ13_bitCount_95d88 ⟨Nat.le_of_ble_eq_true rfl, Nat.le_of_ble_eq_true rfl⟩ (Nat.le_of_ble_eq_true rfl) rfl ⟨Nat.le_of_ble_eq_true rfl, Nat.le_of_ble_eq_true rfl⟩ rfl rfl dX2_count_11 (fun r2 s2 hp hn2 => ?_)
  obtain ⟨rfl, hs⟩ := hp
  have hs := hs.symm
  subst hs
  refine r_iadd G dX2_count_14 ?_
  exact hret _ _ _ _ _ _ dX2_count_15 ⟨h, rfl⟩ rfl (Nat.le_of_ble_eq_true rfl) (Nat.le_of_ble_eq_true rfl)
abbrev rmX2_total : Room := { frames := 1, cells := 0, slots := 0, locals := 23 }
set_option maxHeartbeats 4000000 in
set_option maxRecDepth 100000 in
theorem wX2_total_L4 {E : evT} {l : Launch} {D : va_G} {ad : Nat → Nat} {κ : Nat → ClassId} (hE : EvOk E) {Γ : cxT} (G : Cx (cW ad κ) D (tyA κ) E l Γ cX2_total RX2 wsX2_total 3 rmX2_total) (z0 : Nat) (hz0 : z0 < 55) {o : (Int32 × cS)} (hret : ∀ (st2 : cS) (v : Int32) (cells slots pc : Nat) (lv : List (Nat × Value)), decode cX2_total pc = .ok (.ireturn, 1) → o = (v, st2) → narrow .int (.int v) = .int v → cells ≤ rmX2_total.cells → slots ≤ rmX2_total.slots → V (cW ad κ) D Γ st2 cells slots pc lv [.int v]) : ∀ (fuel : Nat) (x1 : Int32) (x2 : Int32) (s : cS), fX2_total_L4 z0 fuel x1 x2 s = some o → V (cW ad κ) D Γ s 0 0 4 [(0, .ref (ad z0)), (1, .int x1), (2, .int x2)] [] := by
  intro fuel
  induction fuel with
  | zero =>
    intro _ _ _ h
    have h : none = some o := h
    cases h
  | succ fuel ih =>
    intro x1 x2 s h
    rw [fX2_total_L4] at h
    refine r_iload_n G 2 rfl rfl dX2_total_4 ?_
    refine r_bipush G (v := 102) (by decide) dX2_total_5 ?_
    refine r_icmp_ge G (tgt := 31) dX2_total_7 (by decide) (fun c => ?_) (fun c => ?_)
    · rw [if_pos c] at h
      refine r_iload_n G 1 rfl rfl dX2_total_31 ?_
      exact hret _ _ _ _ _ _ dX2_total_32 (Option.some.inj h).symm rfl (Nat.le_of_ble_eq_true rfl) (Nat.le_of_ble_eq_true rfl)
    · rw [if_neg c] at h
      refine r_aload_n G 0 rfl rfl dX2_total_10 ?_
      refine r_iload_n G 2 rfl rfl dX2_total_11 ?_
      refine r_callVi G [.int x2] (qX2_holds hE z0 hz0 x2 _) ⟨z0, 2, _, _, rfl, (cw_MS ad κ _ hz0), rfl⟩ gX2_total_X2_holds rfl hdX2_holds ⟨Nat.le_of_ble_eq_true rfl, Nat.le_of_ble_eq_true rfl⟩ (Nat.le_of_ble_eq_true rfl) rfl ⟨Nat.le_of_ble_eq_true rfl, Nat.le_of_ble_eq_true rfl⟩ rfl rfl dX2_total_12 (fun r1 s1 hp hn1 => ?_)
      obtain ⟨rfl, hs⟩ := hp
      have hs := hs.symm
      subst hs
      refine r_if_eq G (tgt := 25) dX2_total_15 (by decide) (fun c => ?_) (fun c => ?_)
      · rw [if_pos c] at h
        refine r_iinc G (j := 2) rfl (v := x2 + 1) rfl [1, 2, 0] rfl (by decide) dX2_total_25 ?_
        refine r_goto G (tgt := 4) dX2_total_28 (by decide) ?_
        exact ih _ _ _ h
      · rw [if_neg c] at h
        refine r_iload_n G 1 rfl rfl dX2_total_18 ?_
        refine r_iload_n G 2 rfl rfl dX2_total_19 ?_
        refine r_bipush G (v := 51) (by decide) dX2_total_20 ?_
        refine r_isub G dX2_total_22 ?_
        refine r_iadd G dX2_total_23 ?_
        refine r_istore_n G [1, 0, 2] rfl rfl (by decide) dX2_total_24 ?_
        refine r_iinc G (j := 2) rfl (v := x2 + 1) rfl [1, 2, 0] rfl (by decide) dX2_total_25 ?_
        refine r_goto G (tgt := 4) dX2_total_28 (by decide) ?_
        exact ih _ _ _ h
set_option maxHeartbeats 4000000 in
set_option maxRecDepth 100000 in
theorem qX2_total {E : evT} {l : Launch} {D : va_G} {ad : Nat → Nat} {κ : Nat → ClassId} (hE : EvOk E) (n : Nat) (hn : n < 55) (s : cS) {o : (Int32 × cS)} (h : fX2_total n s = some o) : Ci l yX2_total wsX2_total rmX2_total (cW ad κ) E D (tyA κ) .int [.ref (ad n)] s (fun r s2 => o = (r, s2)) := by
  rw [fX2_total] at h
  refine s_i (cc := cX2_total) (nL := 3) (own := RX2) hE (cW_WA ad κ) (plainFor_of_name (by decide)) rfl rfl (Nat.le_of_ble_eq_true rfl) (fun Γ G hret => ?_)
  refine r_iconst G (v := 0) (by decide) dX2_total_0 ?_
  refine r_istore_n G [1, 0] rfl rfl (by decide) dX2_total_1 ?_
  refine r_iconst G (v := 1) (by decide) dX2_total_2 ?_
  refine r_istore_n G [1, 2, 0] rfl rfl (by decide) dX2_total_3 ?_
  refine wX2_total_L4 hE G _ hn hret 1100 _ _ _ h
abbrev rmX2_indexAt : Room := { frames := 1, cells := 0, slots := 0, locals := 23 }
set_option maxHeartbeats 4000000 in
set_option maxRecDepth 100000 in
theorem wX2_indexAt_L10 {E : evT} {l : Launch} {D : va_G} {ad : Nat → Nat} {κ : Nat → ClassId} (hE : EvOk E) {Γ : cxT} (G : Cx (cW ad κ) D (tyA κ) E l Γ cX2_indexAt RX2 wsX2_indexAt 4 rmX2_indexAt) (z0 : Nat) (hz0 : z0 < 55) (x1 : Int32) {o : (Int32 × cS)} (hret : ∀ (st2 : cS) (v : Int32) (cells slots pc : Nat) (lv : List (Nat × Value)), decode cX2_indexAt pc = .ok (.ireturn, 1) → o = (v, st2) → narrow .int (.int v) = .int v → cells ≤ rmX2_indexAt.cells → slots ≤ rmX2_indexAt.slots → V (cW ad κ) D Γ st2 cells slots pc lv [.int v]) : ∀ (fuel : Nat) (x2 : Int32) (x3 : Int32) (s : cS), fX2_indexAt_L10 z0 x1 fuel x2 x3 s = some o → V (cW ad κ) D Γ s 0 0 10 [(0, .ref (ad z0)), (1, .int x1), (2, .int x2), (3, .int x3)] [] := by
  intro fuel
  induction fuel with
  | zero =>
    intro _ _ _ h
    have h : none = some o := h
    cases h
  | succ fuel ih =>
    intro x2 x3 s h
    rw [fX2_indexAt_L10] at h
    refine r_iload_n G 3 rfl rfl dX2_indexAt_10 ?_
    refine r_bipush G (v := 102) (by decide) dX2_indexAt_11 ?_
    refine r_icmp_ge G (tgt := 40) dX2_indexAt_13 (by decide) (fun c => ?_) (fun c => ?_)
    · rw [if_pos c] at h
      refine r_iconst G (v := (-1)) (by decide) dX2_indexAt_40 ?_
      exact hret _ _ _ _ _ _ dX2_indexAt_41 (Option.some.inj h).symm rfl (Nat.le_of_ble_eq_true rfl) (Nat.le_of_ble_eq_true rfl)
    · rw [if_neg c] at h
      refine r_aload_n G 0 rfl rfl dX2_indexAt_16 ?_
      refine r_iload_n G 3 rfl rfl dX2_indexAt_17 ?_
      refine r_callVi G [.int x3] (qX2_holds hE z0 hz0 x3 _) ⟨z0, 2, _, _, rfl, (cw_MS ad κ _ hz0), rfl⟩ gX2_indexAt_X2_holds rfl hdX2_holds ⟨Nat.le_of_ble_eq_true rfl, Nat.le_of_ble_eq_true rfl⟩ (Nat.le_of_ble_eq_true rfl) rfl ⟨Nat.le_of_ble_eq_true rfl, Nat.le_of_ble_eq_true rfl⟩ rfl rfl dX2_indexAt_18 (fun r1 s1 hp hn1 => ?_)
      obtain ⟨rfl, hs⟩ := hp
      have hs := hs.symm
      subst hs
      refine r_if_eq G (tgt := 34) dX2_indexAt_21 (by decide) (fun c => ?_) (fun c => ?_)
      · rw [if_pos c] at h
        refine r_iinc G (j := 3) rfl (v := x3 + 1) rfl [1, 2, 3, 0] rfl (by decide) dX2_indexAt_34 ?_
        refine r_goto G (tgt := 10) dX2_indexAt_37 (by decide) ?_
        exact ih _ _ _ h
      · rw [if_neg c] at h
        refine r_iload_n G 2 rfl rfl dX2_indexAt_24 ?_
        refine r_iload_n G 1 rfl rfl dX2_indexAt_25 ?_
        refine r_icmp_ne G (tgt := 31) dX2_indexAt_26 (by decide) (fun c => ?_) (fun c => ?_)
        · rw [if_neg c] at h
          refine r_iinc G (j := 2) rfl (v := x2 + 1) rfl [1, 2, 0, 3] rfl (by decide) dX2_indexAt_31 ?_
          refine r_iinc G (j := 3) rfl (v := x3 + 1) rfl [1, 2, 3, 0] rfl (by decide) dX2_indexAt_34 ?_
          refine r_goto G (tgt := 10) dX2_indexAt_37 (by decide) ?_
          exact ih _ _ _ h
        · rw [if_pos c] at h
          refine r_iload_n G 3 rfl rfl dX2_indexAt_29 ?_
          exact hret _ _ _ _ _ _ dX2_indexAt_30 (Option.some.inj h).symm rfl (Nat.le_of_ble_eq_true rfl) (Nat.le_of_ble_eq_true rfl)
set_option maxHeartbeats 4000000 in
set_option maxRecDepth 100000 in
theorem qX2_indexAt {E : evT} {l : Launch} {D : va_G} {ad : Nat → Nat} {κ : Nat → ClassId} (hE : EvOk E) (n : Nat) (hn : n < 55) (p0 : Int32) (s : cS) {o : (Int32 × cS)} (h : fX2_indexAt n p0 s = some o) : Ci l yX2_indexAt wsX2_indexAt rmX2_indexAt (cW ad κ) E D (tyA κ) .int [.ref (ad n), .int p0] s (fun r s2 => o = (r, s2)) := by
  rw [fX2_indexAt] at h
  refine s_i (cc := cX2_indexAt) (nL := 4) (own := RX2) hE (cW_WA ad κ) (plainFor_of_name (by decide)) rfl rfl (Nat.le_of_ble_eq_true rfl) (fun Γ G hret => ?_)
  refine r_iload_n G 1 rfl rfl dX2_indexAt_0 ?_
  refine r_if_ge G (tgt := 6) dX2_indexAt_1 (by decide) (fun c => ?_) (fun c => ?_)
  · rw [if_pos c] at h
    refine r_iconst G (v := 0) (by decide) dX2_indexAt_6 ?_
    refine r_istore_n G [1, 2, 0] rfl rfl (by decide) dX2_indexAt_7 ?_
    refine r_iconst G (v := 0) (by decide) dX2_indexAt_8 ?_
    refine r_istore_n G [1, 2, 3, 0] rfl rfl (by decide) dX2_indexAt_9 ?_
    refine wX2_indexAt_L10 hE G _ hn _ hret 1100 _ _ _ h
  · rw [if_neg c] at h
    refine r_iconst G (v := (-1)) (by decide) dX2_indexAt_4 ?_
    exact hret _ _ _ _ _ _ dX2_indexAt_5 (Option.some.inj h).symm rfl (Nat.le_of_ble_eq_true rfl) (Nat.le_of_ble_eq_true rfl)
abbrev rmX2_firstNumber : Room := { frames := 1, cells := 0, slots := 0, locals := 23 }
set_option maxHeartbeats 4000000 in
set_option maxRecDepth 100000 in
theorem wX2_firstNumber_L2 {E : evT} {l : Launch} {D : va_G} {ad : Nat → Nat} {κ : Nat → ClassId} (hE : EvOk E) {Γ : cxT} (G : Cx (cW ad κ) D (tyA κ) E l Γ cX2_firstNumber RX2 wsX2_firstNumber 2 rmX2_firstNumber) (z0 : Nat) (hz0 : z0 < 55) {o : (Int32 × cS)} (hret : ∀ (st2 : cS) (v : Int32) (cells slots pc : Nat) (lv : List (Nat × Value)), decode cX2_firstNumber pc = .ok (.ireturn, 1) → o = (v, st2) → narrow .int (.int v) = .int v → cells ≤ rmX2_firstNumber.cells → slots ≤ rmX2_firstNumber.slots → V (cW ad κ) D Γ st2 cells slots pc lv [.int v]) : ∀ (fuel : Nat) (x1 : Int32) (s : cS), fX2_firstNumber_L2 z0 fuel x1 s = some o → V (cW ad κ) D Γ s 0 0 2 [(0, .ref (ad z0)), (1, .int x1)] [] := by
  intro fuel
  induction fuel with
  | zero =>
    intro _ _ h
    have h : none = some o := h
    cases h
  | succ fuel ih =>
    intro x1 s h
    rw [fX2_firstNumber_L2] at h
    refine r_iload_n G 1 rfl rfl dX2_firstNumber_2 ?_
    refine r_bipush G (v := 102) (by decide) dX2_firstNumber_3 ?_
    refine r_icmp_ge G (tgt := 24) dX2_firstNumber_5 (by decide) (fun c => ?_) (fun c => ?_)
    · rw [if_pos c] at h
      refine r_iconst G (v := (-1)) (by decide) dX2_firstNumber_24 ?_
      exact hret _ _ _ _ _ _ dX2_firstNumber_25 (Option.some.inj h).symm rfl (Nat.le_of_ble_eq_true rfl) (Nat.le_of_ble_eq_true rfl)
    · rw [if_neg c] at h
      refine r_aload_n G 0 rfl rfl dX2_firstNumber_8 ?_
      refine r_iload_n G 1 rfl rfl dX2_firstNumber_9 ?_
      refine r_callVi G [.int x1] (qX2_holds hE z0 hz0 x1 _) ⟨z0, 2, _, _, rfl, (cw_MS ad κ _ hz0), rfl⟩ gX2_firstNumber_X2_holds rfl hdX2_holds ⟨Nat.le_of_ble_eq_true rfl, Nat.le_of_ble_eq_true rfl⟩ (Nat.le_of_ble_eq_true rfl) rfl ⟨Nat.le_of_ble_eq_true rfl, Nat.le_of_ble_eq_true rfl⟩ rfl rfl dX2_firstNumber_10 (fun r1 s1 hp hn1 => ?_)
      obtain ⟨rfl, hs⟩ := hp
      have hs := hs.symm
      subst hs
      refine r_if_eq G (tgt := 18) dX2_firstNumber_13 (by decide) (fun c => ?_) (fun c => ?_)
      · rw [if_pos c] at h
        refine r_iinc G (j := 1) rfl (v := x1 + 1) rfl [1, 0] rfl (by decide) dX2_firstNumber_18 ?_
        refine r_goto G (tgt := 2) dX2_firstNumber_21 (by decide) ?_
        exact ih _ _ h
      · rw [if_neg c] at h
        refine r_iload_n G 1 rfl rfl dX2_firstNumber_16 ?_
        exact hret _ _ _ _ _ _ dX2_firstNumber_17 (Option.some.inj h).symm rfl (Nat.le_of_ble_eq_true rfl) (Nat.le_of_ble_eq_true rfl)
set_option maxHeartbeats 4000000 in
set_option maxRecDepth 100000 in
theorem qX2_firstNumber {E : evT} {l : Launch} {D : va_G} {ad : Nat → Nat} {κ : Nat → ClassId} (hE : EvOk E) (n : Nat) (hn : n < 55) (s : cS) {o : (Int32 × cS)} (h : fX2_firstNumber n s = some o) : Ci l yX2_firstNumber wsX2_firstNumber rmX2_firstNumber (cW ad κ) E D (tyA κ) .int [.ref (ad n)] s (fun r s2 => o = (r, s2)) := by
  rw [fX2_firstNumber] at h
  refine s_i (cc := cX2_firstNumber) (nL := 2) (own := RX2) hE (cW_WA ad κ) (plainFor_of_name (by decide)) rfl rfl (Nat.le_of_ble_eq_true rfl) (fun Γ G hret => ?_)
  refine r_iconst G (v := 1) (by decide) dX2_firstNumber_0 ?_
  refine r_istore_n G [1, 0] rfl rfl (by decide) dX2_firstNumber_1 ?_
  refine wX2_firstNumber_L2 hE G _ hn hret 1100 _ _ h
abbrev rmX2_lastNumber : Room := { frames := 1, cells := 0, slots := 0, locals := 23 }
set_option maxHeartbeats 4000000 in
set_option maxRecDepth 100000 in
theorem wX2_lastNumber_L3 {E : evT} {l : Launch} {D : va_G} {ad : Nat → Nat} {κ : Nat → ClassId} (hE : EvOk E) {Γ : cxT} (G : Cx (cW ad κ) D (tyA κ) E l Γ cX2_lastNumber RX2 wsX2_lastNumber 2 rmX2_lastNumber) (z0 : Nat) (hz0 : z0 < 55) {o : (Int32 × cS)} (hret : ∀ (st2 : cS) (v : Int32) (cells slots pc : Nat) (lv : List (Nat × Value)), decode cX2_lastNumber pc = .ok (.ireturn, 1) → o = (v, st2) → narrow .int (.int v) = .int v → cells ≤ rmX2_lastNumber.cells → slots ≤ rmX2_lastNumber.slots → V (cW ad κ) D Γ st2 cells slots pc lv [.int v]) : ∀ (fuel : Nat) (x1 : Int32) (s : cS), fX2_lastNumber_L3 z0 fuel x1 s = some o → V (cW ad κ) D Γ s 0 0 3 [(0, .ref (ad z0)), (1, .int x1)] [] := by
  intro fuel
  induction fuel with
  | zero =>
    intro _ _ h
    have h : none = some o := h
    cases h
  | succ fuel ih =>
    intro x1 s h
    rw [fX2_lastNumber_L3] at h
    refine r_iload_n G 1 rfl rfl dX2_lastNumber_3 ?_
    refine r_if_le G (tgt := 23) dX2_lastNumber_4 (by decide) (fun c => ?_) (fun c => ?_)
    · rw [if_pos c] at h
      refine r_iconst G (v := (-1)) (by decide) dX2_lastNumber_23 ?_
      exact hret _ _ _ _ _ _ dX2_lastNumber_24 (Option.some.inj h).symm rfl (Nat.le_of_ble_eq_true rfl) (Nat.le_of_ble_eq_true rfl)
    · rw [if_neg c] at h
      refine r_aload_n G 0 rfl rfl dX2_lastNumber_7 ?_
      refine r_iload_n G 1 rfl rfl dX2_lastNumber_8 ?_
      refine r_callVi G [.int x1] (qX2_holds hE z0 hz0 x1 _) ⟨z0, 2, _, _, rfl, (cw_MS ad κ _ hz0), rfl⟩ gX2_lastNumber_X2_holds rfl hdX2_holds ⟨Nat.le_of_ble_eq_true rfl, Nat.le_of_ble_eq_true rfl⟩ (Nat.le_of_ble_eq_true rfl) rfl ⟨Nat.le_of_ble_eq_true rfl, Nat.le_of_ble_eq_true rfl⟩ rfl rfl dX2_lastNumber_9 (fun r1 s1 hp hn1 => ?_)
      obtain ⟨rfl, hs⟩ := hp
      have hs := hs.symm
      subst hs
      refine r_if_eq G (tgt := 17) dX2_lastNumber_12 (by decide) (fun c => ?_) (fun c => ?_)
      · rw [if_pos c] at h
        refine r_iinc G (j := 1) rfl (v := x1 + (-1)) (iincm _) [1, 0] rfl (by decide) dX2_lastNumber_17 ?_
        refine r_goto G (tgt := 3) dX2_lastNumber_20 (by decide) ?_
        exact ih _ _ h
      · rw [if_neg c] at h
        refine r_iload_n G 1 rfl rfl dX2_lastNumber_15 ?_
        exact hret _ _ _ _ _ _ dX2_lastNumber_16 (Option.some.inj h).symm rfl (Nat.le_of_ble_eq_true rfl) (Nat.le_of_ble_eq_true rfl)
set_option maxHeartbeats 4000000 in
set_option maxRecDepth 100000 in
theorem qX2_lastNumber {E : evT} {l : Launch} {D : va_G} {ad : Nat → Nat} {κ : Nat → ClassId} (hE : EvOk E) (n : Nat) (hn : n < 55) (s : cS) {o : (Int32 × cS)} (h : fX2_lastNumber n s = some o) : Ci l yX2_lastNumber wsX2_lastNumber rmX2_lastNumber (cW ad κ) E D (tyA κ) .int [.ref (ad n)] s (fun r s2 => o = (r, s2)) := by
  rw [fX2_lastNumber] at h
  refine s_i (cc := cX2_lastNumber) (nL := 2) (own := RX2) hE (cW_WA ad κ) (plainFor_of_name (by decide)) rfl rfl (Nat.le_of_ble_eq_true rfl) (fun Γ G hret => ?_)
  refine r_bipush G (v := 101) (by decide) dX2_lastNumber_0 ?_
  refine r_istore_n G [1, 0] rfl rfl (by decide) dX2_lastNumber_2 ?_
  refine wX2_lastNumber_L3 hE G _ hn hret 1100 _ _ h
