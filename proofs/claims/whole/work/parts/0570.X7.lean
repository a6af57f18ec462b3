abbrev rmX7_setAt : Room := { frames := 6, cells := 1, slots := 6, locals := 92 }
set_option maxRecDepth 20000 in
theorem mX7_setAt_k263 : Cond.classLink RX7 263 "java/lang/IndexOutOfBoundsException" ∈ wsX7_setAt := by decide +kernel
set_option maxRecDepth 20000 in
theorem mX7_setAt_i1 : Cond.initialized "java/lang/IndexOutOfBoundsException" ∈ wsX7_setAt := by decide +kernel
set_option maxRecDepth 20000 in
theorem tX7_setAt_267 : ∀ w ∈ (vx_atS RX7 267 "java/lang/IndexOutOfBoundsException" ["java/lang/RuntimeException", "java/lang/Exception"]).filter goodWord, w ∈ wsX7_setAt := by decide +kernel
theorem oX7_267 : ∀ w ∈ (vx_atS RX7 267 "java/lang/IndexOutOfBoundsException" ["java/lang/RuntimeException", "java/lang/Exception"]), vx_ot w = true := by decide +kernel
theorem bX7_267 : ∀ w ∈ (vx_atS RX7 267 "java/lang/IndexOutOfBoundsException" ["java/lang/RuntimeException", "java/lang/Exception"]).filter (fun w => !goodWord w), w ∈ thB := by decide +kernel
theorem sX7_265 : (RX7, 265, "there is no such set") ∈ thS := by decide +kernel
set_option maxRecDepth 20000 in
theorem kX7_setAt_X7 : ∀ w ∈ u_ws RX7 TX7 8, w ∈ wsX7_setAt := by decide +kernel
set_option maxRecDepth 20000 in
theorem mX7_setAt_f11 : Cond.fieldLink RX7 11 "SetCouncil" "sets" "[LSetCouncil$MemberSet;" ∈ wsX7_setAt := by decide +kernel
set_option maxHeartbeats 4000000 in
set_option maxRecDepth 100000 in
theorem qX7_setAt {E : evT} {l : Launch} {D : va_G} {ad : Nat → Nat} {κ : Nat → ClassId} (hE : EvOk E) (hT : TOk E) (hfl : l.stackTraces = false) (p0 : Int32) (s : cS) {o : ((Nat × cS) ⊕ (Nat × cS))} (h : fX7_setAt p0 s = some o) : Xr l yX7_setAt wsX7_setAt rmX7_setAt (cW ad κ) E D (tyA κ) ad [.ref (ad 55), .int p0] s (fun r s2 => o = .inr (r, s2)) (fun e s2 => o = .inl (e, s2)) := by
  rw [fX7_setAt] at h
  refine s_xr (cc := cX7_setAt) (nL := 2) (own := RX7) hE (cW_WA ad κ) (by decide) rfl rfl (Nat.le_of_ble_eq_true rfl) (fun Γ Qc G X9 hret => ?_)
  refine r_iload_n G 1 rfl rfl dX7_setAt_0 ?_
  refine r_if_lt G (tgt := 13) dX7_setAt_1 (by decide) (fun c => ?_) (fun c => ?_)
  · rw [if_pos c] at h
    exact r_throwW G X9 hT hfl (k := 1) (by decide) mX7_setAt_k263 mX7_setAt_i1 tX7_setAt_267 oX7_267 bX7_267 sX7_265 dX7_setAt_13 dX7_setAt_16 dX7_setAt_17 dX7_setAt_20 dX7_setAt_23 (Option.some.inj h).symm (Nat.le_of_ble_eq_true rfl) (Nat.le_of_ble_eq_true rfl) (Nat.le_of_ble_eq_true rfl) (Nat.le_of_ble_eq_true rfl)
  · rw [if_neg c] at h
    refine r_iload_n G 1 rfl rfl dX7_setAt_4 ?_
    refine r_aload_n G 0 rfl rfl dX7_setAt_5 ?_
    refine r_get G (C := RX7) (T := TX7) (N := 8) kX7_setAt_X7 55 (cw_SC ad κ _) rfl 0 (by decide) mX7_setAt_f11 rfl rfl dX7_setAt_6 ?_
    refine r_alen G 56 0 (cw_SETS ad κ _) rfl (v := 8) rfl dX7_setAt_9 ?_
    refine r_icmp_lt G (tgt := 24) dX7_setAt_10 (by decide) (fun c => ?_) (fun c => ?_)
    · rw [if_pos c] at h
      refine r_aload_n G 0 rfl rfl dX7_setAt_24 ?_
      refine r_get G (C := RX7) (T := TX7) (N := 8) kX7_setAt_X7 55 (cw_SC ad κ _) rfl 0 (by decide) mX7_setAt_f11 rfl rfl dX7_setAt_25 ?_
      refine r_iload_n G 1 rfl rfl dX7_setAt_28 ?_
      obtain ⟨g1, h⟩ := og h
      refine r_aldq G 56 0 (cw_SETS ad κ _) rfl (vin_in g1) rfl dX7_setAt_29 ?_
      exact hret _ _ _ _ _ _ dX7_setAt_30 (Option.some.inj h).symm (Nat.le_of_ble_eq_true rfl) (Nat.le_of_ble_eq_true rfl)
    · rw [if_neg c] at h
      exact r_throwW G X9 hT hfl (k := 1) (by decide) mX7_setAt_k263 mX7_setAt_i1 tX7_setAt_267 oX7_267 bX7_267 sX7_265 dX7_setAt_13 dX7_setAt_16 dX7_setAt_17 dX7_setAt_20 dX7_setAt_23 (Option.some.inj h).symm (Nat.le_of_ble_eq_true rfl) (Nat.le_of_ble_eq_true rfl) (Nat.le_of_ble_eq_true rfl) (Nat.le_of_ble_eq_true rfl)
abbrev rmX7_isNumber : Room := { frames := 0, cells := 0, slots := 0, locals := 0 }
set_option maxHeartbeats 4000000 in
set_option maxRecDepth 100000 in
theorem qX7_isNumber {E : evT} {l : Launch} {D : va_G} {ad : Nat → Nat} {κ : Nat → ClassId} (hE : EvOk E) (p0 : Int32) (s : cS) : Ci l yX7_isNumber wsX7_isNumber rmX7_isNumber (cW ad κ) E D (tyA κ) .boolean [.int p0] s (fun r s2 => r = fX7_isNumber p0 s ∧ s2 = s) := by
  obtain ⟨o, h⟩ : ∃ o, fX7_isNumber p0 s = o := ⟨_, rfl⟩
  rw [h]
  rw [fX7_isNumber] at h
  refine s_i (cc := cX7_isNumber) (nL := 1) (own := RX7) hE (cW_WA ad κ) (plainFor_of_name (by decide)) rfl rfl (Nat.le_of_ble_eq_true rfl) (fun Γ G hret => ?_)
  refine r_iload_n G 0 rfl rfl dX7_isNumber_0 ?_
  refine r_bipush G (v := (-50)) (by decide) dX7_isNumber_1 ?_
  refine r_icmp_lt G (tgt := 16) dX7_isNumber_3 (by decide) (fun c => ?_) (fun c => ?_)
  · rw [if_pos c] at h
    refine r_iconst G (v := 0) (by decide) dX7_isNumber_16 ?_
    exact hret _ _ _ _ _ _ dX7_isNumber_17 ⟨h, rfl⟩ rfl (Nat.le_of_ble_eq_true rfl) (Nat.le_of_ble_eq_true rfl)
  · rw [if_neg c] at h
    refine r_iload_n G 0 rfl rfl dX7_isNumber_6 ?_
    refine r_bipush G (v := 50) (by decide) dX7_isNumber_7 ?_
    refine r_icmp_gt G (tgt := 16) dX7_isNumber_9 (by decide) (fun c => ?_) (fun c => ?_)
    · rw [if_pos c] at h
      refine r_iconst G (v := 0) (by decide) dX7_isNumber_16 ?_
      exact hret _ _ _ _ _ _ dX7_isNumber_17 ⟨h, rfl⟩ rfl (Nat.le_of_ble_eq_true rfl) (Nat.le_of_ble_eq_true rfl)
    · rw [if_neg c] at h
      refine r_iconst G (v := 1) (by decide) dX7_isNumber_12 ?_
      refine r_goto G (tgt := 17) dX7_isNumber_13 (by decide) ?_
      exact hret _ _ _ _ _ _ dX7_isNumber_17 ⟨h, rfl⟩ rfl (Nat.le_of_ble_eq_true rfl) (Nat.le_of_ble_eq_true rfl)
abbrev rmX7_indexOfMember : Room := { frames := 6, cells := 1, slots := 6, locals := 92 }
theorem hdX7_isNumber : yX7_isNumber.cls ≠ "java/lang/invoke/MethodHandle" ∧ yX7_isNumber.cls ≠ "java/lang/invoke/VarHandle" ∧ (parseMethodDescriptor yX7_isNumber.desc).map (fun d => d.parameters.length) = some 1 := by decide +kernel
set_option maxRecDepth 20000 in
theorem mX7_indexOfMember_k268 : Cond.classLink RX7 268 "java/lang/IllegalArgumentException" ∈ wsX7_indexOfMember := by decide +kernel
set_option maxRecDepth 20000 in
theorem mX7_indexOfMember_i2 : Cond.initialized "java/lang/IllegalArgumentException" ∈ wsX7_indexOfMember := by decide +kernel
set_option maxRecDepth 20000 in
theorem tX7_indexOfMember_272 : ∀ w ∈ (vx_atS RX7 272 "java/lang/IllegalArgumentException" ["java/lang/RuntimeException", "java/lang/Exception"]).filter goodWord, w ∈ wsX7_indexOfMember := by decide +kernel
theorem oX7_272 : ∀ w ∈ (vx_atS RX7 272 "java/lang/IllegalArgumentException" ["java/lang/RuntimeException", "java/lang/Exception"]), vx_ot w = true := by decide +kernel
theorem bX7_272 : ∀ w ∈ (vx_atS RX7 272 "java/lang/IllegalArgumentException" ["java/lang/RuntimeException", "java/lang/Exception"]).filter (fun w => !goodWord w), w ∈ thB := by decide +kernel
theorem sX7_273 : (RX7, 273, "there is no such member") ∈ thS := by decide +kernel
set_option maxHeartbeats 4000000 in
set_option maxRecDepth 100000 in
theorem qX7_indexOfMember {E : evT} {l : Launch} {D : va_G} {ad : Nat → Nat} {κ : Nat → ClassId} (hE : EvOk E) (hT : TOk E) (hfl : l.stackTraces = false) (p0 : Int32) (s : cS) {o : ((Nat × cS) ⊕ (Int32 × cS))} (h : fX7_indexOfMember p0 s = some o) : Xi l yX7_indexOfMember wsX7_indexOfMember rmX7_indexOfMember (cW ad κ) E D (tyA κ) .int [.int p0] s (fun r s2 => o = .inr (r, s2)) (fun e s2 => o = .inl (e, s2)) := by
  rw [fX7_indexOfMember] at h
  refine s_xi (cc := cX7_indexOfMember) (nL := 1) (own := RX7) hE (cW_WA ad κ) (by decide) rfl rfl (Nat.le_of_ble_eq_true rfl) (fun Γ Qc G X9 hret => ?_)
  refine r_iload_n G 0 rfl rfl dX7_indexOfMember_0 ?_
  refine r_bipush G (v := 100) (by decide) dX7_indexOfMember_1 ?_
  refine r_icmp_ne G (tgt := 8) dX7_indexOfMember_3 (by decide) (fun c => ?_) (fun c => ?_)
  · rw [if_neg c] at h
    refine r_iload_n G 0 rfl rfl dX7_indexOfMember_8 ?_
    refine r_callSi G [.int p0] (qX7_isNumber hE p0 _) gX7_indexOfMember_X7_isNumber rfl hdX7_isNumber ⟨Nat.le_of_ble_eq_true rfl, Nat.le_of_ble_eq_true rfl⟩ (Nat.le_of_ble_eq_true rfl) rfl ⟨Nat.le_of_ble_eq_true rfl, Nat.le_of_ble_eq_true rfl⟩ rfl rfl dX7_indexOfMember_9 (fun r1 s1 hp hn1 => ?_)
    obtain ⟨rfl, hs⟩ := hp
    have hs := hs.symm
    subst hs
    refine r_if_ne G (tgt := 26) dX7_indexOfMember_12 (by decide) (fun c => ?_) (fun c => ?_)
    · rw [if_neg c] at h
      refine r_iload_n G 0 rfl rfl dX7_indexOfMember_26 ?_
      refine r_bipush G (v := 51) (by decide) dX7_indexOfMember_27 ?_
      refine r_iadd G dX7_indexOfMember_29 ?_
      exact hret _ _ _ _ _ _ dX7_indexOfMember_30 (Option.some.inj h).symm rfl (Nat.le_of_ble_eq_true rfl) (Nat.le_of_ble_eq_true rfl)
    · rw [if_pos c] at h
      exact r_throwW G X9 hT hfl (k := 2) (by decide) mX7_indexOfMember_k268 mX7_indexOfMember_i2 tX7_indexOfMember_272 oX7_272 bX7_272 sX7_273 dX7_indexOfMember_15 dX7_indexOfMember_18 dX7_indexOfMember_19 dX7_indexOfMember_22 dX7_indexOfMember_25 (Option.some.inj h).symm (Nat.le_of_ble_eq_true rfl) (Nat.le_of_ble_eq_true rfl) (Nat.le_of_ble_eq_true rfl) (Nat.le_of_ble_eq_true rfl)
  · rw [if_pos c] at h
    refine r_iconst G (v := 0) (by decide) dX7_indexOfMember_6 ?_
    exact hret _ _ _ _ _ _ dX7_indexOfMember_7 (Option.some.inj h).symm rfl (Nat.le_of_ble_eq_true rfl) (Nat.le_of_ble_eq_true rfl)
abbrev rmX7_add : Room := { frames := 7, cells := 2, slots := 12, locals := 113 }
theorem hdX7_setAt : yX7_setAt.cls = RX7 ∧ yX7_setAt.cls ≠ "java/lang/invoke/MethodHandle" ∧ yX7_setAt.cls ≠ "java/lang/invoke/VarHandle" ∧ (parseMethodDescriptor yX7_setAt.desc).map (fun d => d.parameters.length) = some 1 := by decide +kernel
theorem hdX7_indexOfMember : yX7_indexOfMember.cls ≠ "java/lang/invoke/MethodHandle" ∧ yX7_indexOfMember.cls ≠ "java/lang/invoke/VarHandle" ∧ (parseMethodDescriptor yX7_indexOfMember.desc).map (fun d => d.parameters.length) = some 1 := by decide +kernel
set_option maxHeartbeats 4000000 in
set_option maxRecDepth 100000 in
theorem qX7_add {E : evT} {l : Launch} {D : va_G} {ad : Nat → Nat} {κ : Nat → ClassId} (hE : EvOk E) (hT : TOk E) (hfl : l.stackTraces = false) (p0 : Int32) (p1 : Int32) (s : cS) {o : ((Nat × cS) ⊕ (Int32 × cS))} (h : fX7_add p0 p1 s = some o) : Xi l yX7_add wsX7_add rmX7_add (cW ad κ) E D (tyA κ) .boolean [.ref (ad 55), .int p0, .int p1] s (fun r s2 => o = .inr (r, s2)) (fun e s2 => o = .inl (e, s2)) := by
  rw [fX7_add] at h
  refine s_xi (cc := cX7_add) (nL := 4) (own := RX7) hE (cW_WA ad κ) (by decide) rfl rfl (Nat.le_of_ble_eq_true rfl) (fun Γ Qc G X9 hret => ?_)
  refine r_aload_n G 0 rfl rfl dX7_add_0 ?_
  refine r_iload_n G 1 rfl rfl dX7_add_1 ?_
  obtain ⟨o1, e1, h⟩ := ob h
  refine r_callVrx G [.int p0] (qX7_setAt hE hT hfl p0 _ e1) ⟨55, 7, _, _, rfl, (cw_SC ad κ _), rfl⟩ gX7_add_X7_setAt rfl hdX7_setAt ⟨Nat.le_of_ble_eq_true rfl, Nat.le_of_ble_eq_true rfl⟩ (Nat.le_of_ble_eq_true rfl) rfl ⟨Nat.le_of_ble_eq_true rfl, Nat.le_of_ble_eq_true rfl⟩ rfl rfl dX7_add_2 (fun k9 st9 hp9 => by subst hp9; exact r_out G X9 (fun _ hx => nomatch hx) (Option.some.inj h).symm (Nat.le_of_ble_eq_true rfl) (Nat.le_of_ble_eq_true rfl)) (fun r1 s1 hp => ?_)
  subst hp
  try dsimp only [Sum.elim_inr] at h
  obtain ⟨g2, h⟩ := og h
  refine r_astore_n G [3, 0] rfl rfl (by decide) dX7_add_5 ?_
  refine r_aload_n G 1 rfl rfl dX7_add_6 ?_
  refine r_iload_n G 0 rfl rfl dX7_add_7 ?_
  obtain ⟨o3, e3, h⟩ := ob h
  refine r_callSix G [.int p1] (qX7_indexOfMember hE hT hfl p1 _ e3) gX7_add_X7_indexOfMember rfl hdX7_indexOfMember ⟨Nat.le_of_ble_eq_true rfl, Nat.le_of_ble_eq_true rfl⟩ (Nat.le_of_ble_eq_true rfl) rfl ⟨Nat.le_of_ble_eq_true rfl, Nat.le_of_ble_eq_true rfl⟩ rfl rfl dX7_add_8 (fun k9 st9 hp9 => by subst hp9; exact r_out G X9 (fun _ hx => nomatch hx) (Option.some.inj h).symm (Nat.le_of_ble_eq_true rfl) (Nat.le_of_ble_eq_true rfl)) (fun r3 s3 hp hn3 => ?_)
  subst hp
  try dsimp only [Sum.elim_inr] at h
  obtain ⟨o4, e4, h⟩ := ob h
  refine r_callVi G [.int r3] (qX2_put hE r1 g2 r3 _ e4) ⟨r1, 2, _, _, rfl, (cw_MS ad κ _ g2), rfl⟩ gX7_add_X2_put rfl hdX2_put ⟨Nat.le_of_ble_eq_true rfl, Nat.le_of_ble_eq_true rfl⟩ (Nat.le_of_ble_eq_true rfl) rfl ⟨Nat.le_of_ble_eq_true rfl, Nat.le_of_ble_eq_true rfl⟩ rfl rfl dX7_add_11 (fun r4 s4 hp hn4 => ?_)
  subst hp
  try dsimp only at h
  exact hret _ _ _ _ _ _ dX7_add_14 (Option.some.inj h).symm hn4 (Nat.le_of_ble_eq_true rfl) (Nat.le_of_ble_eq_true rfl)
abbrev rmX7_remove : Room := { frames := 7, cells := 2, slots := 12, locals := 113 }
theorem hdX2_takeOut : yX2_takeOut.cls = RX2 ∧ yX2_takeOut.cls ≠ "java/lang/invoke/MethodHandle" ∧ yX2_takeOut.cls ≠ "java/lang/invoke/VarHandle" ∧ (parseMethodDescriptor yX2_takeOut.desc).map (fun d => d.parameters.length) = some 1 := by decide +kernel
set_option maxHeartbeats 4000000 in
set_option maxRecDepth 100000 in
theorem qX7_remove {E : evT} {l : Launch} {D : va_G} {ad : Nat → Nat} {κ : Nat → ClassId} (hE : EvOk E) (hT : TOk E) (hfl : l.stackTraces = false) (p0 : Int32) (p1 : Int32) (s : cS) {o : ((Nat × cS) ⊕ (Int32 × cS))} (h : fX7_remove p0 p1 s = some o) : Xi l yX7_remove wsX7_remove rmX7_remove (cW ad κ) E D (tyA κ) .boolean [.ref (ad 55), .int p0, .int p1] s (fun r s2 => o = .inr (r, s2)) (fun e s2 => o = .inl (e, s2)) := by
  rw [fX7_remove] at h
  refine s_xi (cc := cX7_remove) (nL := 4) (own := RX7) hE (cW_WA ad κ) (by decide) rfl rfl (Nat.le_of_ble_eq_true rfl) (fun Γ Qc G X9 hret => ?_)
  refine r_aload_n G 0 rfl rfl dX7_remove_0 ?_
  refine r_iload_n G 1 rfl rfl dX7_remove_1 ?_
  obtain ⟨o1, e1, h⟩ := ob h
  refine r_callVrx G [.int p0] (qX7_setAt hE hT hfl p0 _ e1) ⟨55, 7, _, _, rfl, (cw_SC ad κ _), rfl⟩ gX7_remove_X7_setAt rfl hdX7_setAt ⟨Nat.le_of_ble_eq_true rfl, Nat.le_of_ble_eq_true rfl⟩ (Nat.le_of_ble_eq_true rfl) rfl ⟨Nat.le_of_ble_eq_true rfl, Nat.le_of_ble_eq_true rfl⟩ rfl rfl dX7_remove_2 (fun k9 st9 hp9 => by subst hp9; exact r_out G X9 (fun _ hx => nomatch hx) (Option.some.inj h).symm (Nat.le_of_ble_eq_true rfl) (Nat.le_of_ble_eq_true rfl)) (fun r1 s1 hp => ?_)
  subst hp
  try dsimp only [Sum.elim_inr] at h
  obtain ⟨g2, h⟩ := og h
  refine r_astore_n G [3, 0] rfl rfl (by decide) dX7_remove_5 ?_
  refine r_aload_n G 1 rfl rfl dX7_remove_6 ?_
  refine r_iload_n G 0 rfl rfl dX7_remove_7 ?_
  obtain ⟨o3, e3, h⟩ := ob h
  refine r_callSix G [.int p1] (qX7_indexOfMember hE hT hfl p1 _ e3) gX7_remove_X7_indexOfMember rfl hdX7_indexOfMember ⟨Nat.le_of_ble_eq_true rfl, Nat.le_of_ble_eq_true rfl⟩ (Nat.le_of_ble_eq_true rfl) rfl ⟨Nat.le_of_ble_eq_true rfl, Nat.le_of_ble_eq_true rfl⟩ rfl rfl dX7_remove_8 (fun k9 st9 hp9 => by subst hp9; exact r_out G X9 (fun _ hx => nomatch hx) (Option.some.inj h).symm (Nat.le_of_ble_eq_true rfl) (Nat.le_of_ble_eq_true rfl)) (fun r3 s3 hp hn3 => ?_)
  subst hp
  try dsimp only [Sum.elim_inr] at h
  obtain ⟨o4, e4, h⟩ := ob h
  refine r_callVi G [.int r3] (qX2_takeOut hE r1 g2 r3 _ e4) ⟨r1, 2, _, _, rfl, (cw_MS ad κ _ g2), rfl⟩ gX7_remove_X2_takeOut rfl hdX2_takeOut ⟨Nat.le_of_ble_eq_true rfl, Nat.le_of_ble_eq_true rfl⟩ (Nat.le_of_ble_eq_true rfl) rfl ⟨Nat.le_of_ble_eq_true rfl, Nat.le_of_ble_eq_true rfl⟩ rfl rfl dX7_remove_11 (fun r4 s4 hp hn4 => ?_)
  subst hp
  try dsimp only at h
  exact hret _ _ _ _ _ _ dX7_remove_14 (Option.some.inj h).symm hn4 (Nat.le_of_ble_eq_true rfl) (Nat.le_of_ble_eq_true rfl)
abbrev rmX7_has : Room := { frames := 7, cells := 2, slots := 12, locals := 113 }
set_option maxHeartbeats 4000000 in
set_option maxRecDepth 100000 in
theorem qX7_has {E : evT} {l : Launch} {D : va_G} {ad : Nat → Nat} {κ : Nat → ClassId} (hE : EvOk E) (hT : TOk E) (hfl : l.stackTraces = false) (p0 : Int32) (p1 : Int32) (s : cS) {o : ((Nat × cS) ⊕ (Int32 × cS))} (h : fX7_has p0 p1 s = some o) : Xi l yX7_has wsX7_has rmX7_has (cW ad κ) E D (tyA κ) .boolean [.ref (ad 55), .int p0, .int p1] s (fun r s2 => o = .inr (r, s2)) (fun e s2 => o = .inl (e, s2)) := by
  rw [fX7_has] at h
  refine s_xi (cc := cX7_has) (nL := 4) (own := RX7) hE (cW_WA ad κ) (by decide) rfl rfl (Nat.le_of_ble_eq_true rfl) (fun Γ Qc G X9 hret => ?_)
  refine r_aload_n G 0 rfl rfl dX7_has_0 ?_
  refine r_iload_n G 1 rfl rfl dX7_has_1 ?_
  obtain ⟨o1, e1, h⟩ := ob h
  refine r_callVrx G [.int p0] (qX7_setAt hE hT hfl p0 _ e1) ⟨55, 7, _, _, rfl, (cw_SC ad κ _), rfl⟩ gX7_has_X7_setAt rfl hdX7_setAt ⟨Nat.le_of_ble_eq_true rfl, Nat.le_of_ble_eq_true rfl⟩ (Nat.le_of_ble_eq_true rfl) rfl ⟨Nat.le_of_ble_eq_true rfl, Nat.le_of_ble_eq_true rfl⟩ rfl rfl dX7_has_2 (fun k9 st9 hp9 => by subst hp9; exact r_out G X9 (fun _ hx => nomatch hx) (Option.some.inj h).symm (Nat.le_of_ble_eq_true rfl) (Nat.le_of_ble_eq_true rfl)) (fun r1 s1 hp => ?_)
  subst hp
  try dsimp only [Sum.elim_inr] at h
  obtain ⟨g2, h⟩ := og h
  refine r_astore_n G [3, 0] rfl rfl (by decide) dX7_has_5 ?_
  refine r_aload_n G 1 rfl rfl dX7_has_6 ?_
  refine r_iload_n G 0 rfl rfl dX7_has_7 ?_
  obtain ⟨o3, e3, h⟩ := ob h
  refine r_callSix G [.int p1] (qX7_indexOfMember hE hT hfl p1 _ e3) gX7_has_X7_indexOfMember rfl hdX7_indexOfMember ⟨Nat.le_of_ble_eq_true rfl, Nat.le_of_ble_eq_true rfl⟩ (Nat.le_of_ble_eq_true rfl) rfl ⟨Nat.le_of_ble_eq_true rfl, Nat.le_of_ble_eq_true rfl⟩ rfl rfl dX7_has_8 (fun k9 st9 hp9 => by subst hp9; exact r_out G X9 (fun _ hx => nomatch hx) (Option.some.inj h).symm (Nat.le_of_ble_eq_true rfl) (Nat.le_of_ble_eq_true rfl)) (fun r3 s3 hp hn3 => ?_)
  subst hp
  try dsimp only [Sum.elim_inr] at h
  refine r_callVi G [.int r3] (qX2_holds hE r1 g2 r3 _) ⟨r1, 2, _, _, rfl, (cw_MS ad κ _ g2), rfl⟩ gX7_has_X2_holds rfl hdX2_holds ⟨Nat.le_of_ble_eq_true rfl, Nat.le_of_ble_eq_true rfl⟩ (Nat.le_of_ble_eq_true rfl) rfl ⟨Nat.le_of_ble_eq_true rfl, Nat.le_of_ble_eq_true rfl⟩ rfl rfl dX7_has_11 (fun r4 s4 hp hn4 => ?_)
  obtain ⟨rfl, hs⟩ := hp
  have hs := hs.symm
  subst hs
  exact hret _ _ _ _ _ _ dX7_has_14 (Option.some.inj h).symm hn4 (Nat.le_of_ble_eq_true rfl) (Nat.le_of_ble_eq_true rfl)
abbrev rmX7_size : Room := { frames := 7, cells := 1, slots := 6, locals := 113 }
set_option maxHeartbeats 4000000 in
set_option maxRecDepth 100000 in
theorem qX7_size {E : evT} {l : Launch} {D : va_G} {ad : Nat → Nat} {κ : Nat → ClassId} (hE : EvOk E) (hT : TOk E) (hfl : l.stackTraces = false) (p0 : Int32) (s : cS) {o : ((Nat × cS) ⊕ (Int32 × cS))} (h : fX7_size p0 s = some o) : Xi l yX7_size wsX7_size rmX7_size (cW ad κ) E D (tyA κ) .int [.ref (ad 55), .int p0] s (fun r s2 => o = .inr (r, s2)) (fun e s2 => o = .inl (e, s2)) := by
  rw [fX7_size] at h
  refine s_xi (cc := cX7_size) (nL := 2) (own := RX7) hE (cW_WA ad κ) (by decide) rfl rfl (Nat.le_of_ble_eq_true rfl) (fun Γ Qc G X9 hret => ?_)
  refine r_aload_n G 0 rfl rfl dX7_size_0 ?_
  refine r_iload_n G 1 rfl rfl dX7_size_1 ?_
  obtain ⟨o1, e1, h⟩ := ob h
  refine r_callVrx G [.int p0] (qX7_setAt hE hT hfl p0 _ e1) ⟨55, 7, _, _, rfl, (cw_SC ad κ _), rfl⟩ gX7_size_X7_setAt rfl hdX7_setAt ⟨Nat.le_of_ble_eq_true rfl, Nat.le_of_ble_eq_true rfl⟩ (Nat.le_of_ble_eq_true rfl) rfl ⟨Nat.le_of_ble_eq_true rfl, Nat.le_of_ble_eq_true rfl⟩ rfl rfl dX7_size_2 (fun k9 st9 hp9 => by subst hp9; exact r_out G X9 (fun _ hx => nomatch hx) (Option.some.inj h).symm (Nat.le_of_ble_eq_true rfl) (Nat.le_of_ble_eq_true rfl)) (fun r1 s1 hp => ?_)
  subst hp
  try dsimp only [Sum.elim_inr] at h
  obtain ⟨g2, h⟩ := og h
  refine r_callVi G [] (qX2_count hE r1 g2 _) ⟨r1, 2, _, _, rfl, (cw_MS ad κ _ g2), rfl⟩ gX7_size_X2_count rfl hdX2_count ⟨Nat.le_of_ble_eq_true rfl, Nat.le_of_ble_eq_true rfl⟩ (Nat.le_of_ble_eq_true rfl) rfl ⟨Nat.le_of_ble_eq_true rfl, Nat.le_of_ble_eq_true rfl⟩ rfl rfl dX7_size_5 (fun r3 s3 hp hn3 => ?_)
  obtain ⟨rfl, hs⟩ := hp
  have hs := hs.symm
  subst hs
  exact hret _ _ _ _ _ _ dX7_size_8 (Option.some.inj h).symm rfl (Nat.le_of_ble_eq_true rfl) (Nat.le_of_ble_eq_true rfl)
abbrev rmX7_sum : Room := { frames := 7, cells := 1, slots := 6, locals := 113 }
set_option maxHeartbeats 4000000 in
set_option maxRecDepth 100000 in
theorem qX7_sum {E : evT} {l : Launch} {D : va_G} {ad : Nat → Nat} {κ : Nat → ClassId} (hE : EvOk E) (hT : TOk E) (hfl : l.stackTraces = false) (p0 : Int32) (s : cS) {o : ((Nat × cS) ⊕ (Int32 × cS))} (h : fX7_sum p0 s = some o) : Xi l yX7_sum wsX7_sum rmX7_sum (cW ad κ) E D (tyA κ) .int [.ref (ad 55), .int p0] s (fun r s2 => o = .inr (r, s2)) (fun e s2 => o = .inl (e, s2)) := by
  rw [fX7_sum] at h
  refine s_xi (cc := cX7_sum) (nL := 2) (own := RX7) hE (cW_WA ad κ) (by decide) rfl rfl (Nat.le_of_ble_eq_true rfl) (fun Γ Qc G X9 hret => ?_)
  refine r_aload_n G 0 rfl rfl dX7_sum_0 ?_
  refine r_iload_n G 1 rfl rfl dX7_sum_1 ?_
  obtain ⟨o1, e1, h⟩ := ob h
  refine r_callVrx G [.int p0] (qX7_setAt hE hT hfl p0 _ e1) ⟨55, 7, _, _, rfl, (cw_SC ad κ _), rfl⟩ gX7_sum_X7_setAt rfl hdX7_setAt ⟨Nat.le_of_ble_eq_true rfl, Nat.le_of_ble_eq_true rfl⟩ (Nat.le_of_ble_eq_true rfl) rfl ⟨Nat.le_of_ble_eq_true rfl, Nat.le_of_ble_eq_true rfl⟩ rfl rfl dX7_sum_2 (fun k9 st9 hp9 => by subst hp9; exact r_out G X9 (fun _ hx => nomatch hx) (Option.some.inj h).symm (Nat.le_of_ble_eq_true rfl) (Nat.le_of_ble_eq_true rfl)) (fun r1 s1 hp => ?_)
  subst hp
  try dsimp only [Sum.elim_inr] at h
  obtain ⟨g2, h⟩ := og h
  obtain ⟨o3, e3, h⟩ := ob h
  refine r_callVi G [] (qX2_total hE r1 g2 _ e3) ⟨r1, 2, _, _, rfl, (cw_MS ad κ _ g2), rfl⟩ gX7_sum_X2_total rfl hdX2_total ⟨Nat.le_of_ble_eq_true rfl, Nat.le_of_ble_eq_true rfl⟩ (Nat.le_of_ble_eq_true rfl) rfl ⟨Nat.le_of_ble_eq_true rfl, Nat.le_of_ble_eq_true rfl⟩ rfl rfl dX7_sum_5 (fun r3 s3 hp hn3 => ?_)
  subst hp
  try dsimp only at h
  exact hret _ _ _ _ _ _ dX7_sum_8 (Option.some.inj h).symm rfl (Nat.le_of_ble_eq_true rfl) (Nat.le_of_ble_eq_true rfl)
abbrev rmX7_clear : Room := { frames := 7, cells := 1, slots := 6, locals := 113 }
set_option maxHeartbeats 4000000 in
set_option maxRecDepth 100000 in
theorem qX7_clear {E : evT} {l : Launch} {D : va_G} {ad : Nat → Nat} {κ : Nat → ClassId} (hE : EvOk E) (hT : TOk E) (hfl : l.stackTraces = false) (p0 : Int32) (s : cS) {o : ((Nat × cS) ⊕ (Int32 × cS))} (h : fX7_clear p0 s = some o) : Xi l yX7_clear wsX7_clear rmX7_clear (cW ad κ) E D (tyA κ) .int [.ref (ad 55), .int p0] s (fun r s2 => o = .inr (r, s2)) (fun e s2 => o = .inl (e, s2)) := by
  rw [fX7_clear] at h
  refine s_xi (cc := cX7_clear) (nL := 4) (own := RX7) hE (cW_WA ad κ) (by decide) rfl rfl (Nat.le_of_ble_eq_true rfl) (fun Γ Qc G X9 hret => ?_)
  refine r_aload_n G 0 rfl rfl dX7_clear_0 ?_
  refine r_iload_n G 1 rfl rfl dX7_clear_1 ?_
  obtain ⟨o1, e1, h⟩ := ob h
  refine r_callVrx G [.int p0] (qX7_setAt hE hT hfl p0 _ e1) ⟨55, 7, _, _, rfl, (cw_SC ad κ _), rfl⟩ gX7_clear_X7_setAt rfl hdX7_setAt ⟨Nat.le_of_ble_eq_true rfl, Nat.le_of_ble_eq_true rfl⟩ (Nat.le_of_ble_eq_true rfl) rfl ⟨Nat.le_of_ble_eq_true rfl, Nat.le_of_ble_eq_true rfl⟩ rfl rfl dX7_clear_2 (fun k9 st9 hp9 => by subst hp9; exact r_out G X9 (fun _ hx => nomatch hx) (Option.some.inj h).symm (Nat.le_of_ble_eq_true rfl) (Nat.le_of_ble_eq_true rfl)) (fun r1 s1 hp => ?_)
  subst hp
  try dsimp only [Sum.elim_inr] at h
  obtain ⟨g2, h⟩ := og h
  refine r_astore_n G [0] rfl rfl (by decide) dX7_clear_5 ?_
  refine r_aload_n G 0 rfl rfl dX7_clear_6 ?_
  refine r_callVi G [] (qX2_count hE r1 g2 _) ⟨r1, 2, _, _, rfl, (cw_MS ad κ _ g2), rfl⟩ gX7_clear_X2_count rfl hdX2_count ⟨Nat.le_of_ble_eq_true rfl, Nat.le_of_ble_eq_true rfl⟩ (Nat.le_of_ble_eq_true rfl) rfl ⟨Nat.le_of_ble_eq_true rfl, Nat.le_of_ble_eq_true rfl⟩ rfl rfl dX7_clear_7 (fun r3 s3 hp hn3 => ?_)
  obtain ⟨rfl, hs⟩ := hp
  have hs := hs.symm
  subst hs
  refine r_istore_n G [1, 0] rfl rfl (by decide) dX7_clear_10 ?_
  refine r_aload_n G 0 rfl rfl dX7_clear_11 ?_
  obtain ⟨o4, e4, h⟩ := ob h
  refine r_callVv G [] (qX2_empty hE r1 g2 _ e4) ⟨r1, 2, _, _, rfl, (cw_MS ad κ _ g2), rfl⟩ gX7_clear_X2_empty rfl hdX2_empty ⟨Nat.le_of_ble_eq_true rfl, Nat.le_of_ble_eq_true rfl⟩ (Nat.le_of_ble_eq_true rfl) rfl ⟨Nat.le_of_ble_eq_true rfl, Nat.le_of_ble_eq_true rfl⟩ rfl rfl dX7_clear_12 (fun s4 hp => ?_)
  have hp := hp.symm
  subst hp
  try dsimp only at h
  refine r_iload_n G 1 rfl rfl dX7_clear_15 ?_
  exact hret _ _ _ _ _ _ dX7_clear_16 (Option.some.inj h).symm rfl (Nat.le_of_ble_eq_true rfl) (Nat.le_of_ble_eq_true rfl)
abbrev rmX7_checkRange : Room := { frames := 6, cells := 1, slots := 6, locals := 92 }
set_option maxRecDepth 20000 in
theorem mX7_checkRange_k268 : Cond.classLink RX7 268 "java/lang/IllegalArgumentException" ∈ wsX7_checkRange := by decide +kernel
set_option maxRecDepth 20000 in
theorem mX7_checkRange_i2 : Cond.initialized "java/lang/IllegalArgumentException" ∈ wsX7_checkRange := by decide +kernel
set_option maxRecDepth 20000 in
theorem tX7_checkRange_272 : ∀ w ∈ (vx_atS RX7 272 "java/lang/IllegalArgumentException" ["java/lang/RuntimeException", "java/lang/Exception"]).filter goodWord, w ∈ wsX7_checkRange := by decide +kernel
theorem sX7_270 : (RX7, 270, "a parameter is out of range") ∈ thS := by decide +kernel
set_option maxHeartbeats 4000000 in
set_option maxRecDepth 100000 in
theorem qX7_checkRange {E : evT} {l : Launch} {D : va_G} {ad : Nat → Nat} {κ : Nat → ClassId} (hE : EvOk E) (hT : TOk E) (hfl : l.stackTraces = false) (p0 : Int32) (p1 : Int32) (p2 : Int32) (s : cS) {o : ((Nat × cS) ⊕ (cS))} (h : fX7_checkRange p0 p1 p2 s = some o) : Xv l yX7_checkRange wsX7_checkRange rmX7_checkRange (cW ad κ) E D (tyA κ)  [.int p0, .int p1, .int p2] s (fun s2 => o = .inr s2) (fun e s2 => o = .inl (e, s2)) := by
  rw [fX7_checkRange] at h
  refine s_xv (cc := cX7_checkRange) (nL := 3) (own := RX7) hE (cW_WA ad κ) (by decide) rfl rfl (Nat.le_of_ble_eq_true rfl) (fun Γ Qc G X9 hret => ?_)
  refine r_iload_n G 0 rfl rfl dX7_checkRange_0 ?_
  refine r_iload_n G 1 rfl rfl dX7_checkRange_1 ?_
  refine r_icmp_lt G (tgt := 10) dX7_checkRange_2 (by decide) (fun c => ?_) (fun c => ?_)
  · rw [if_pos c] at h
    exact r_throwW G X9 hT hfl (k := 2) (by decide) mX7_checkRange_k268 mX7_checkRange_i2 tX7_checkRange_272 oX7_272 bX7_272 sX7_270 dX7_checkRange_10 dX7_checkRange_13 dX7_checkRange_14 dX7_checkRange_17 dX7_checkRange_20 (Option.some.inj h).symm (Nat.le_of_ble_eq_true rfl) (Nat.le_of_ble_eq_true rfl) (Nat.le_of_ble_eq_true rfl) (Nat.le_of_ble_eq_true rfl)
  · rw [if_neg c] at h
    refine r_iload_n G 0 rfl rfl dX7_checkRange_5 ?_
    refine r_iload_n G 2 rfl rfl dX7_checkRange_6 ?_
    refine r_icmp_le G (tgt := 21) dX7_checkRange_7 (by decide) (fun c => ?_) (fun c => ?_)
    · rw [if_pos c] at h
      exact hret _ _ _ _ _ dX7_checkRange_21 (Option.some.inj h).symm (Nat.le_of_ble_eq_true rfl) (Nat.le_of_ble_eq_true rfl)
    · rw [if_neg c] at h
      exact r_throwW G X9 hT hfl (k := 2) (by decide) mX7_checkRange_k268 mX7_checkRange_i2 tX7_checkRange_272 oX7_272 bX7_272 sX7_270 dX7_checkRange_10 dX7_checkRange_13 dX7_checkRange_14 dX7_checkRange_17 dX7_checkRange_20 (Option.some.inj h).symm (Nat.le_of_ble_eq_true rfl) (Nat.le_of_ble_eq_true rfl) (Nat.le_of_ble_eq_true rfl) (Nat.le_of_ble_eq_true rfl)
abbrev rmX7_fill : Room := { frames := 7, cells := 4, slots := 24, locals := 114 }
theorem hdX7_checkRange : yX7_checkRange.cls ≠ "java/lang/invoke/MethodHandle" ∧ yX7_checkRange.cls ≠ "java/lang/invoke/VarHandle" ∧ (parseMethodDescriptor yX7_checkRange.desc).map (fun d => d.parameters.length) = some 3 := by decide +kernel
set_option maxHeartbeats 4000000 in
set_option maxRecDepth 100000 in
theorem wX7_fill_L41 {E : evT} {l : Launch} {D : va_G} {ad : Nat → Nat} {κ : Nat → ClassId} (hE : EvOk E) (hT : TOk E) (hfl : l.stackTraces = false) {Γ : cxT} {Qc : Array Value → State → Outcome → State → Prop} (G : Cx (cW ad κ) D (tyA κ) E l Γ cX7_fill RX7 wsX7_fill 9 rmX7_fill) (x2 : Int32) (x3 : Int32) (x4 : Int32) (z5 : Nat) (hz5 : z5 < 55) (x6 : Int32) {o : ((Nat × cS) ⊕ (Int32 × cS))} (X9 : Tx (cW ad κ) D Γ rmX7_fill (fun e st2 => o = .inl (e, st2)) Qc []) (hret : ∀ (st2 : cS) (v : Int32) (cells slots pc : Nat) (lv : List (Nat × Value)), decode cX7_fill pc = .ok (.ireturn, 1) → o = .inr (v, st2) → narrow .int (.int v) = .int v → cells ≤ rmX7_fill.cells → slots ≤ rmX7_fill.slots → V (cW ad κ) D Γ st2 cells slots pc lv [.int v]) {k0 : cS → Option ((Nat × cS) ⊕ (Int32 × cS))} (hk0 : ∀ (s : cS), k0 s = some o → V (cW ad κ) D Γ s 4 24 81 [(5, .ref (ad z5)), (6, .int x6)] []) : ∀ (fuel : Nat) (x7 : Int32) (s : cS), fX7_fill_L41 x2 x3 x4 z5 x6 k0 fuel x7 s = some o → V (cW ad κ) D Γ s 4 24 41 [(2, .int x2), (3, .int x3), (4, .int x4), (5, .ref (ad z5)), (6, .int x6), (7, .int x7)] [] := by
  intro fuel
  induction fuel with
  | zero =>
    intro _ _ h
    have h : none = some o := h
    cases h
  | succ fuel ih =>
    intro x7 s h
    rw [fX7_fill_L41] at h
    refine r_iload G 5 rfl dX7_fill_41 ?_
    refine r_iload G 2 rfl dX7_fill_43 ?_
    refine r_icmp_ge G (tgt := 81) dX7_fill_45 (by decide) (fun c => ?_) (fun c => ?_)
    · rw [if_pos c] at h
      refine V.sub [3, 4] rfl ?_
      exact hk0 _ h
    · rw [if_neg c] at h
      refine r_iload_n G 0 rfl rfl dX7_fill_48 ?_
      refine r_iload G 5 rfl dX7_fill_49 ?_
      refine r_iload_n G 1 rfl rfl dX7_fill_51 ?_
      refine r_imul G dX7_fill_52 ?_
      refine r_iadd G dX7_fill_53 ?_
      refine r_istore G [1, 2, 3, 4, 5, 6, 0] rfl (by decide) dX7_fill_54 ?_
      refine r_iload G 6 rfl dX7_fill_56 ?_
      refine r_callSi G [.int (x2 + (x7 * x3))] (qX7_isNumber hE (x2 + (x7 * x3)) _) gX7_fill_X7_isNumber rfl hdX7_isNumber ⟨Nat.le_of_ble_eq_true rfl, Nat.le_of_ble_eq_true rfl⟩ (Nat.le_of_ble_eq_true rfl) rfl ⟨Nat.le_of_ble_eq_true rfl, Nat.le_of_ble_eq_true rfl⟩ rfl rfl dX7_fill_58 (fun r7 s7 hp hn7 => ?_)
      obtain ⟨rfl, hs⟩ := hp
      have hs := hs.symm
      subst hs
      refine r_if_eq G (tgt := 75) dX7_fill_61 (by decide) (fun c => ?_) (fun c => ?_)
      · rw [if_pos c] at h
        refine r_iinc G (j := 5) rfl (v := x7 + 1) rfl [1, 2, 3, 4, 5, 0] rfl (by decide) dX7_fill_75 ?_
        refine r_goto G (tgt := 41) dX7_fill_78 (by decide) ?_
        exact ih _ _ h
      · rw [if_neg c] at h
        refine r_aload G 3 rfl dX7_fill_64 ?_
        refine r_iload G 6 rfl dX7_fill_66 ?_
        refine r_bipush G (v := 51) (by decide) dX7_fill_68 ?_
        refine r_iadd G dX7_fill_70 ?_
        obtain ⟨o8, e8, h⟩ := ob h
        refine r_callVi G [.int ((x2 + (x7 * x3)) + 51)] (qX2_put hE z5 hz5 ((x2 + (x7 * x3)) + 51) _ e8) ⟨z5, 2, _, _, rfl, (cw_MS ad κ _ hz5), rfl⟩ gX7_fill_X2_put rfl hdX2_put ⟨Nat.le_of_ble_eq_true rfl, Nat.le_of_ble_eq_true rfl⟩ (Nat.le_of_ble_eq_true rfl) rfl ⟨Nat.le_of_ble_eq_true rfl, Nat.le_of_ble_eq_true rfl⟩ rfl rfl dX7_fill_71 (fun r8 s8 hp hn8 => ?_)
        subst hp
        try dsimp only at h
        refine r_pop G rfl dX7_fill_74 ?_
        refine r_iinc G (j := 5) rfl (v := x7 + 1) rfl [1, 2, 3, 4, 5, 0] rfl (by decide) dX7_fill_75 ?_
        refine r_goto G (tgt := 41) dX7_fill_78 (by decide) ?_
        exact ih _ _ h
set_option maxHeartbeats 4000000 in
set_option maxRecDepth 100000 in
theorem qX7_fill {E : evT} {l : Launch} {D : va_G} {ad : Nat → Nat} {κ : Nat → ClassId} (hE : EvOk E) (hT : TOk E) (hfl : l.stackTraces = false) (p0 : Int32) (p1 : Int32) (p2 : Int32) (p3 : Int32) (s : cS) {o : ((Nat × cS) ⊕ (Int32 × cS))} (h : fX7_fill p0 p1 p2 p3 s = some o) : Xi l yX7_fill wsX7_fill rmX7_fill (cW ad κ) E D (tyA κ) .int [.ref (ad 55), .int p0, .int p1, .int p2, .int p3] s (fun r s2 => o = .inr (r, s2)) (fun e s2 => o = .inl (e, s2)) := by
  rw [fX7_fill] at h
  refine s_xi (cc := cX7_fill) (nL := 9) (own := RX7) hE (cW_WA ad κ) (by decide) rfl rfl (Nat.le_of_ble_eq_true rfl) (fun Γ Qc G X9 hret => ?_)
  refine r_aload_n G 0 rfl rfl dX7_fill_0 ?_
  refine r_iload_n G 1 rfl rfl dX7_fill_1 ?_
  obtain ⟨o1, e1, h⟩ := ob h
  refine r_callVrx G [.int p0] (qX7_setAt hE hT hfl p0 _ e1) ⟨55, 7, _, _, rfl, (cw_SC ad κ _), rfl⟩ gX7_fill_X7_setAt rfl hdX7_setAt ⟨Nat.le_of_ble_eq_true rfl, Nat.le_of_ble_eq_true rfl⟩ (Nat.le_of_ble_eq_true rfl) rfl ⟨Nat.le_of_ble_eq_true rfl, Nat.le_of_ble_eq_true rfl⟩ rfl rfl dX7_fill_2 (fun k9 st9 hp9 => by subst hp9; exact r_out G X9 (fun _ hx => nomatch hx) (Option.some.inj h).symm (Nat.le_of_ble_eq_true rfl) (Nat.le_of_ble_eq_true rfl)) (fun r1 s1 hp => ?_)
  subst hp
  try dsimp only [Sum.elim_inr] at h
  obtain ⟨g2, h⟩ := og h
  refine r_astore G [3, 4, 5, 0] rfl (by decide) dX7_fill_5 ?_
  refine r_iload_n G 0 rfl rfl dX7_fill_7 ?_
  refine r_bipush G (v := (-50)) (by decide) dX7_fill_8 ?_
  refine r_bipush G (v := 50) (by decide) dX7_fill_10 ?_
  obtain ⟨o3, e3, h⟩ := ob h
  refine r_callSvx G [.int p1, .int (-50), .int 50] (qX7_checkRange hE hT hfl p1 (-50 : Int32) (50 : Int32) _ e3) gX7_fill_X7_checkRange rfl hdX7_checkRange ⟨Nat.le_of_ble_eq_true rfl, Nat.le_of_ble_eq_true rfl⟩ (Nat.le_of_ble_eq_true rfl) rfl ⟨Nat.le_of_ble_eq_true rfl, Nat.le_of_ble_eq_true rfl⟩ rfl rfl dX7_fill_12 (fun k9 st9 hp9 => by subst hp9; exact r_out G X9 (fun _ hx => nomatch hx) (Option.some.inj h).symm (Nat.le_of_ble_eq_true rfl) (Nat.le_of_ble_eq_true rfl)) (fun s3 hp => ?_)
  have hp := hp.symm
  subst hp
  try dsimp only [Sum.elim_inr] at h
  refine r_iload_n G 1 rfl rfl dX7_fill_15 ?_
  refine r_bipush G (v := (-100)) (by decide) dX7_fill_16 ?_
  refine r_bipush G (v := 100) (by decide) dX7_fill_18 ?_
  obtain ⟨o4, e4, h⟩ := ob h
  refine r_callSvx G [.int p2, .int (-100), .int 100] (qX7_checkRange hE hT hfl p2 (-100 : Int32) (100 : Int32) _ e4) gX7_fill_X7_checkRange rfl hdX7_checkRange ⟨Nat.le_of_ble_eq_true rfl, Nat.le_of_ble_eq_true rfl⟩ (Nat.le_of_ble_eq_true rfl) rfl ⟨Nat.le_of_ble_eq_true rfl, Nat.le_of_ble_eq_true rfl⟩ rfl rfl dX7_fill_20 (fun k9 st9 hp9 => by subst hp9; exact r_out G X9 (fun _ hx => nomatch hx) (Option.some.inj h).symm (Nat.le_of_ble_eq_true rfl) (Nat.le_of_ble_eq_true rfl)) (fun s4 hp => ?_)
  have hp := hp.symm
  subst hp
  try dsimp only [Sum.elim_inr] at h
  refine r_iload G 2 rfl dX7_fill_23 ?_
  refine r_iconst G (v := 0) (by decide) dX7_fill_25 ?_
  refine r_bipush G (v := 101) (by decide) dX7_fill_26 ?_
  obtain ⟨o5, e5, h⟩ := ob h
  refine r_callSvx G [.int p3, .int 0, .int 101] (qX7_checkRange hE hT hfl p3 (0 : Int32) (101 : Int32) _ e5) gX7_fill_X7_checkRange rfl hdX7_checkRange ⟨Nat.le_of_ble_eq_true rfl, Nat.le_of_ble_eq_true rfl⟩ (Nat.le_of_ble_eq_true rfl) rfl ⟨Nat.le_of_ble_eq_true rfl, Nat.le_of_ble_eq_true rfl⟩ rfl rfl dX7_fill_28 (fun k9 st9 hp9 => by subst hp9; exact r_out G X9 (fun _ hx => nomatch hx) (Option.some.inj h).symm (Nat.le_of_ble_eq_true rfl) (Nat.le_of_ble_eq_true rfl)) (fun s5 hp => ?_)
  have hp := hp.symm
  subst hp
  try dsimp only [Sum.elim_inr] at h
  refine r_aload G 3 rfl dX7_fill_31 ?_
  refine r_callVi G [] (qX2_count hE r1 g2 _) ⟨r1, 2, _, _, rfl, (cw_MS ad κ _ g2), rfl⟩ gX7_fill_X2_count rfl hdX2_count ⟨Nat.le_of_ble_eq_true rfl, Nat.le_of_ble_eq_true rfl⟩ (Nat.le_of_ble_eq_true rfl) rfl ⟨Nat.le_of_ble_eq_true rfl, Nat.le_of_ble_eq_true rfl⟩ rfl rfl dX7_fill_33 (fun r6 s6 hp hn6 => ?_)
  obtain ⟨rfl, hs⟩ := hp
  have hs := hs.symm
  subst hs
  refine r_istore G [1, 2, 3, 4, 0] rfl (by decide) dX7_fill_36 ?_
  refine r_iconst G (v := 0) (by decide) dX7_fill_38 ?_
  refine r_istore G [1, 2, 3, 4, 5, 0] rfl (by decide) dX7_fill_39 ?_
  refine wX7_fill_L41 hE hT hfl G _ _ _ _ g2 _ X9 hret (fun s9 h => ?_) 1100 _ _ h
  · try dsimp only at h
    refine r_aload G 0 rfl dX7_fill_81 ?_
    refine r_callVi G [] (qX2_count hE r1 g2 _) ⟨r1, 2, _, _, rfl, (cw_MS ad κ _ g2), rfl⟩ gX7_fill_X2_count rfl hdX2_count ⟨Nat.le_of_ble_eq_true rfl, Nat.le_of_ble_eq_true rfl⟩ (Nat.le_of_ble_eq_true rfl) rfl ⟨Nat.le_of_ble_eq_true rfl, Nat.le_of_ble_eq_true rfl⟩ rfl rfl dX7_fill_83 (fun r10 s10 hp hn10 => ?_)
    obtain ⟨rfl, hs⟩ := hp
    have hs := hs.symm
    subst hs
    refine r_iload G 1 rfl dX7_fill_86 ?_
    refine r_isub G dX7_fill_88 ?_
    exact hret _ _ _ _ _ _ dX7_fill_89 (Option.some.inj h).symm rfl (Nat.le_of_ble_eq_true rfl) (Nat.le_of_ble_eq_true rfl)
abbrev rmX7_memberOfIndex : Room := { frames := 0, cells := 0, slots := 0, locals := 0 }
set_option maxHeartbeats 4000000 in
set_option maxRecDepth 100000 in
theorem qX7_memberOfIndex {E : evT} {l : Launch} {D : va_G} {ad : Nat → Nat} {κ : Nat → ClassId} (hE : EvOk E) (p0 : Int32) (s : cS) : Ci l yX7_memberOfIndex wsX7_memberOfIndex rmX7_memberOfIndex (cW ad κ) E D (tyA κ) .int [.int p0] s (fun r s2 => r = fX7_memberOfIndex p0 s ∧ s2 = s) := by
  obtain ⟨o, h⟩ : ∃ o, fX7_memberOfIndex p0 s = o := ⟨_, rfl⟩
  rw [h]
  rw [fX7_memberOfIndex] at h
  refine s_i (cc := cX7_memberOfIndex) (nL := 1) (own := RX7) hE (cW_WA ad κ) (plainFor_of_name (by decide)) rfl rfl (Nat.le_of_ble_eq_true rfl) (fun Γ G hret => ?_)
  refine r_iload_n G 0 rfl rfl dX7_memberOfIndex_0 ?_
  refine r_if_ne G (tgt := 9) dX7_memberOfIndex_1 (by decide) (fun c => ?_) (fun c => ?_)
  · rw [if_neg c] at h
    refine r_iload_n G 0 rfl rfl dX7_memberOfIndex_9 ?_
    refine r_bipush G (v := 51) (by decide) dX7_memberOfIndex_10 ?_
    refine r_isub G dX7_memberOfIndex_12 ?_
    exact hret _ _ _ _ _ _ dX7_memberOfIndex_13 ⟨h, rfl⟩ rfl (Nat.le_of_ble_eq_true rfl) (Nat.le_of_ble_eq_true rfl)
  · rw [if_pos c] at h
    refine r_bipush G (v := 100) (by decide) dX7_memberOfIndex_4 ?_
    refine r_goto G (tgt := 13) dX7_memberOfIndex_6 (by decide) ?_
    exact hret _ _ _ _ _ _ dX7_memberOfIndex_13 ⟨h, rfl⟩ rfl (Nat.le_of_ble_eq_true rfl) (Nat.le_of_ble_eq_true rfl)
abbrev rmX7_memberAt : Room := { frames := 7, cells := 2, slots := 12, locals := 113 }
theorem hdX2_indexAt : yX2_indexAt.cls = RX2 ∧ yX2_indexAt.cls ≠ "java/lang/invoke/MethodHandle" ∧ yX2_indexAt.cls ≠ "java/lang/invoke/VarHandle" ∧ (parseMethodDescriptor yX2_indexAt.desc).map (fun d => d.parameters.length) = some 1 := by decide +kernel
theorem hdX7_memberOfIndex : yX7_memberOfIndex.cls ≠ "java/lang/invoke/MethodHandle" ∧ yX7_memberOfIndex.cls ≠ "java/lang/invoke/VarHandle" ∧ (parseMethodDescriptor yX7_memberOfIndex.desc).map (fun d => d.parameters.length) = some 1 := by decide +kernel
set_option maxRecDepth 20000 in
theorem mX7_memberAt_k100 : Cond.classLink RX7 100 "java/util/NoSuchElementException" ∈ wsX7_memberAt := by decide +kernel
set_option maxRecDepth 20000 in
theorem mX7_memberAt_i3 : Cond.initialized "java/util/NoSuchElementException" ∈ wsX7_memberAt := by decide +kernel
set_option maxRecDepth 20000 in
theorem tX7_memberAt_104 : ∀ w ∈ (nse_at RX7 104).filter goodWord, w ∈ wsX7_memberAt := by decide +kernel
theorem oX7_104 : ∀ w ∈ (nse_at RX7 104), vx_ot w = true := by decide +kernel
theorem bX7_104 : ∀ w ∈ (nse_at RX7 104).filter (fun w => !goodWord w), w ∈ thB := by decide +kernel
theorem sX7_102 : (RX7, 102, "the set has no such member") ∈ thS := by decide +kernel
set_option maxHeartbeats 4000000 in
set_option maxRecDepth 100000 in
theorem qX7_memberAt {E : evT} {l : Launch} {D : va_G} {ad : Nat → Nat} {κ : Nat → ClassId} (hE : EvOk E) (hT : TOk E) (hfl : l.stackTraces = false) (p0 : Int32) (p1 : Int32) (s : cS) {o : ((Nat × cS) ⊕ (Int32 × cS))} (h : fX7_memberAt p0 p1 s = some o) : Xi l yX7_memberAt wsX7_memberAt rmX7_memberAt (cW ad κ) E D (tyA κ) .int [.ref (ad 55), .int p0, .int p1] s (fun r s2 => o = .inr (r, s2)) (fun e s2 => o = .inl (e, s2)) := by
  rw [fX7_memberAt] at h
  refine s_xi (cc := cX7_memberAt) (nL := 4) (own := RX7) hE (cW_WA ad κ) (by decide) rfl rfl (Nat.le_of_ble_eq_true rfl) (fun Γ Qc G X9 hret => ?_)
  refine r_aload_n G 0 rfl rfl dX7_memberAt_0 ?_
  refine r_iload_n G 1 rfl rfl dX7_memberAt_1 ?_
  obtain ⟨o1, e1, h⟩ := ob h
  refine r_callVrx G [.int p0] (qX7_setAt hE hT hfl p0 _ e1) ⟨55, 7, _, _, rfl, (cw_SC ad κ _), rfl⟩ gX7_memberAt_X7_setAt rfl hdX7_setAt ⟨Nat.le_of_ble_eq_true rfl, Nat.le_of_ble_eq_true rfl⟩ (Nat.le_of_ble_eq_true rfl) rfl ⟨Nat.le_of_ble_eq_true rfl, Nat.le_of_ble_eq_true rfl⟩ rfl rfl dX7_memberAt_2 (fun k9 st9 hp9 => by subst hp9; exact r_out G X9 (fun _ hx => nomatch hx) (Option.some.inj h).symm (Nat.le_of_ble_eq_true rfl) (Nat.le_of_ble_eq_true rfl)) (fun r1 s1 hp => ?_)
  subst hp
  try dsimp only [Sum.elim_inr] at h
  obtain ⟨g2, h⟩ := og h
  refine r_iload_n G 2 rfl rfl dX7_memberAt_5 ?_
  obtain ⟨o3, e3, h⟩ := ob h
  refine r_callVi G [.int p1] (qX2_indexAt hE r1 g2 p1 _ e3) ⟨r1, 2, _, _, rfl, (cw_MS ad κ _ g2), rfl⟩ gX7_memberAt_X2_indexAt rfl hdX2_indexAt ⟨Nat.le_of_ble_eq_true rfl, Nat.le_of_ble_eq_true rfl⟩ (Nat.le_of_ble_eq_true rfl) rfl ⟨Nat.le_of_ble_eq_true rfl, Nat.le_of_ble_eq_true rfl⟩ rfl rfl dX7_memberAt_6 (fun r3 s3 hp hn3 => ?_)
  subst hp
  try dsimp only at h
  refine r_istore_n G [0] rfl rfl (by decide) dX7_memberAt_9 ?_
  refine r_iload_n G 0 rfl rfl dX7_memberAt_10 ?_
  refine r_iconst G (v := (-1)) (by decide) dX7_memberAt_11 ?_
  refine r_icmp_ne G (tgt := 25) dX7_memberAt_12 (by decide) (fun c => ?_) (fun c => ?_)
  · rw [if_neg c] at h
    refine r_iload_n G 0 rfl rfl dX7_memberAt_25 ?_
    refine r_callSi G [.int r3] (qX7_memberOfIndex hE r3 _) gX7_memberAt_X7_memberOfIndex rfl hdX7_memberOfIndex ⟨Nat.le_of_ble_eq_true rfl, Nat.le_of_ble_eq_true rfl⟩ (Nat.le_of_ble_eq_true rfl) rfl ⟨Nat.le_of_ble_eq_true rfl, Nat.le_of_ble_eq_true rfl⟩ rfl rfl dX7_memberAt_26 (fun r4 s4 hp hn4 => ?_)
    obtain ⟨rfl, hs⟩ := hp
    have hs := hs.symm
    subst hs
    exact hret _ _ _ _ _ _ dX7_memberAt_29 (Option.some.inj h).symm rfl (Nat.le_of_ble_eq_true rfl) (Nat.le_of_ble_eq_true rfl)
  · rw [if_pos c] at h
    exact r_throwN G X9 hT hfl  mX7_memberAt_k100 mX7_memberAt_i3 tX7_memberAt_104 oX7_104 bX7_104 sX7_102 dX7_memberAt_15 dX7_memberAt_18 dX7_memberAt_19 dX7_memberAt_21 dX7_memberAt_24 (Option.some.inj h).symm (Nat.le_of_ble_eq_true rfl) (Nat.le_of_ble_eq_true rfl) (Nat.le_of_ble_eq_true rfl) (Nat.le_of_ble_eq_true rfl)
abbrev rmX7_numberOf : Room := { frames := 6, cells := 1, slots := 6, locals := 92 }
set_option maxRecDepth 20000 in
theorem mX7_numberOf_k100 : Cond.classLink RX7 100 "java/util/NoSuchElementException" ∈ wsX7_numberOf := by decide +kernel
set_option maxRecDepth 20000 in
theorem mX7_numberOf_i3 : Cond.initialized "java/util/NoSuchElementException" ∈ wsX7_numberOf := by decide +kernel
set_option maxRecDepth 20000 in
theorem tX7_numberOf_104 : ∀ w ∈ (nse_at RX7 104).filter goodWord, w ∈ wsX7_numberOf := by decide +kernel
theorem sX7_275 : (RX7, 275, "the set has no number") ∈ thS := by decide +kernel
set_option maxHeartbeats 4000000 in
set_option maxRecDepth 100000 in
theorem qX7_numberOf {E : evT} {l : Launch} {D : va_G} {ad : Nat → Nat} {κ : Nat → ClassId} (hE : EvOk E) (hT : TOk E) (hfl : l.stackTraces = false) (p0 : Int32) (s : cS) {o : ((Nat × cS) ⊕ (Int32 × cS))} (h : fX7_numberOf p0 s = some o) : Xi l yX7_numberOf wsX7_numberOf rmX7_numberOf (cW ad κ) E D (tyA κ) .int [.int p0] s (fun r s2 => o = .inr (r, s2)) (fun e s2 => o = .inl (e, s2)) := by
  rw [fX7_numberOf] at h
  refine s_xi (cc := cX7_numberOf) (nL := 1) (own := RX7) hE (cW_WA ad κ) (by decide) rfl rfl (Nat.le_of_ble_eq_true rfl) (fun Γ Qc G X9 hret => ?_)
  refine r_iload_n G 0 rfl rfl dX7_numberOf_0 ?_
  refine r_iconst G (v := (-1)) (by decide) dX7_numberOf_1 ?_
  refine r_icmp_ne G (tgt := 16) dX7_numberOf_2 (by decide) (fun c => ?_) (fun c => ?_)
  · rw [if_neg c] at h
    refine r_iload_n G 0 rfl rfl dX7_numberOf_16 ?_
    refine r_bipush G (v := 51) (by decide) dX7_numberOf_17 ?_
    refine r_isub G dX7_numberOf_19 ?_
    exact hret _ _ _ _ _ _ dX7_numberOf_20 (Option.some.inj h).symm rfl (Nat.le_of_ble_eq_true rfl) (Nat.le_of_ble_eq_true rfl)
  · rw [if_pos c] at h
    exact r_throwNW G X9 hT hfl  mX7_numberOf_k100 mX7_numberOf_i3 tX7_numberOf_104 oX7_104 bX7_104 sX7_275 dX7_numberOf_5 dX7_numberOf_8 dX7_numberOf_9 dX7_numberOf_12 dX7_numberOf_15 (Option.some.inj h).symm (Nat.le_of_ble_eq_true rfl) (Nat.le_of_ble_eq_true rfl) (Nat.le_of_ble_eq_true rfl) (Nat.le_of_ble_eq_true rfl)
