abbrev rmX5_shows : Room := { frames := 1, cells := 0, slots := 0, locals := 23 }
set_option maxRecDepth 20000 in
theorem kX5_shows_X5 : ∀ w ∈ u_ws RX5 TX5 1, w ∈ wsX5_shows := by decide +kernel
set_option maxRecDepth 20000 in
theorem mX5_shows_f7 : Cond.fieldLink RX5 7 "SetCouncil$View" "behind" "LSetCouncil$MemberSet;" ∈ wsX5_shows := by decide +kernel
set_option maxHeartbeats 4000000 in
set_option maxRecDepth 100000 in
theorem qX5_shows {E : evT} {l : Launch} {D : va_G} {ad : Nat → Nat} {κ : Nat → ClassId} (hE : EvOk E) (v : Nat) (hv : 58 ≤ v ∧ v < 66) (p0 : Int32) (s : cS) : Ci l yX5_shows wsX5_shows rmX5_shows (cW ad κ) E D (tyA κ) .boolean [.ref (ad v), .int p0] s (fun r s2 => r = fX5_shows v p0 s ∧ s2 = s) := by
  obtain ⟨o, h⟩ : ∃ o, fX5_shows v p0 s = o := ⟨_, rfl⟩
  rw [h]
  rw [fX5_shows] at h
  refine s_i (cc := cX5_shows) (nL := 2) (own := RX5) hE (cW_WA ad κ) (plainFor_of_name (by decide)) rfl rfl (Nat.le_of_ble_eq_true rfl) (fun Γ G hret => ?_)
  refine r_aload_n G 0 rfl rfl dX5_shows_0 ?_
  refine r_get G (C := RX5) (T := TX5) (N := 1) kX5_shows_X5 v (cw_VIEWv ad κ _ hv) rfl 0 (by decide) mX5_shows_f7 rfl rfl dX5_shows_1 ?_
  refine r_iload_n G 1 rfl rfl dX5_shows_4 ?_
  refine r_callVi G [.int p0] (qX2_holds hE (v - 58) (by have := hv; omega) p0 _) ⟨(v - 58), 2, _, _, rfl, (cw_MS ad κ _ (by have := hv; omega)), rfl⟩ gX5_shows_X2_holds rfl hdX2_holds ⟨Nat.le_of_ble_eq_true rfl, Nat.le_of_ble_eq_true rfl⟩ (Nat.le_of_ble_eq_true rfl) rfl ⟨Nat.le_of_ble_eq_true rfl, Nat.le_of_ble_eq_true rfl⟩ rfl rfl dX5_shows_5 (fun r1 s1 hp hn1 => ?_)
  obtain ⟨rfl, hs⟩ := hp
  have hs := hs.symm
  subst hs
  exact hret _ _ _ _ _ _ dX5_shows_8 ⟨h, rfl⟩ hn1 (Nat.le_of_ble_eq_true rfl) (Nat.le_of_ble_eq_true rfl)
abbrev rmX5_put : Room := { frames := 6, cells := 1, slots := 6, locals := 92 }
set_option maxRecDepth 20000 in
theorem mX5_put_k19 : Cond.classLink RX5 19 "java/lang/UnsupportedOperationException" ∈ wsX5_put := by decide +kernel
set_option maxRecDepth 20000 in
theorem mX5_put_i5 : Cond.initialized "java/lang/UnsupportedOperationException" ∈ wsX5_put := by decide +kernel
set_option maxRecDepth 20000 in
theorem tX5_put_23 : ∀ w ∈ (vx_atS RX5 23 "java/lang/UnsupportedOperationException" ["java/lang/RuntimeException", "java/lang/Exception"]).filter goodWord, w ∈ wsX5_put := by decide +kernel
theorem oX5_23 : ∀ w ∈ (vx_atS RX5 23 "java/lang/UnsupportedOperationException" ["java/lang/RuntimeException", "java/lang/Exception"]), vx_ot w = true := by decide +kernel
theorem bX5_23 : ∀ w ∈ (vx_atS RX5 23 "java/lang/UnsupportedOperationException" ["java/lang/RuntimeException", "java/lang/Exception"]).filter (fun w => !goodWord w), w ∈ thB := by decide +kernel
theorem sX5_21 : (RX5, 21, "a view cannot be changed") ∈ thS := by decide +kernel
set_option maxHeartbeats 4000000 in
set_option maxRecDepth 100000 in
theorem qX5_put {E : evT} {l : Launch} {D : va_G} {ad : Nat → Nat} {κ : Nat → ClassId} (hE : EvOk E) (hT : TOk E) (hfl : l.stackTraces = false) (v : Nat) (hv : 58 ≤ v ∧ v < 66) (p0 : Int32) (s : cS) {o : ((Nat × cS) ⊕ (Int32 × cS))} (h : fX5_put v p0 s = some o) : Xi l yX5_put wsX5_put rmX5_put (cW ad κ) E D (tyA κ) .boolean [.ref (ad v), .int p0] s (fun r s2 => o = .inr (r, s2)) (fun e s2 => o = .inl (e, s2)) := by
  rw [fX5_put] at h
  refine s_xi (cc := cX5_put) (nL := 2) (own := RX5) hE (cW_WA ad κ) (by decide) rfl rfl (Nat.le_of_ble_eq_true rfl) (fun Γ Qc G X9 hret => ?_)
  exact r_throw G X9 hT hfl (k := 5) (by decide) mX5_put_k19 mX5_put_i5 tX5_put_23 oX5_23 bX5_23 sX5_21 dX5_put_0 dX5_put_3 dX5_put_4 dX5_put_6 dX5_put_9 (Option.some.inj h).symm (Nat.le_of_ble_eq_true rfl) (Nat.le_of_ble_eq_true rfl) (Nat.le_of_ble_eq_true rfl) (Nat.le_of_ble_eq_true rfl)
abbrev rmX5_takeOut : Room := { frames := 6, cells := 1, slots := 6, locals := 92 }
set_option maxRecDepth 20000 in
theorem mX5_takeOut_k19 : Cond.classLink RX5 19 "java/lang/UnsupportedOperationException" ∈ wsX5_takeOut := by decide +kernel
set_option maxRecDepth 20000 in
theorem mX5_takeOut_i5 : Cond.initialized "java/lang/UnsupportedOperationException" ∈ wsX5_takeOut := by decide +kernel
set_option maxRecDepth 20000 in
theorem tX5_takeOut_23 : ∀ w ∈ (vx_atS RX5 23 "java/lang/UnsupportedOperationException" ["java/lang/RuntimeException", "java/lang/Exception"]).filter goodWord, w ∈ wsX5_takeOut := by decide +kernel
set_option maxHeartbeats 4000000 in
set_option maxRecDepth 100000 in
theorem qX5_takeOut {E : evT} {l : Launch} {D : va_G} {ad : Nat → Nat} {κ : Nat → ClassId} (hE : EvOk E) (hT : TOk E) (hfl : l.stackTraces = false) (v : Nat) (hv : 58 ≤ v ∧ v < 66) (p0 : Int32) (s : cS) {o : ((Nat × cS) ⊕ (Int32 × cS))} (h : fX5_takeOut v p0 s = some o) : Xi l yX5_takeOut wsX5_takeOut rmX5_takeOut (cW ad κ) E D (tyA κ) .boolean [.ref (ad v), .int p0] s (fun r s2 => o = .inr (r, s2)) (fun e s2 => o = .inl (e, s2)) := by
  rw [fX5_takeOut] at h
  refine s_xi (cc := cX5_takeOut) (nL := 2) (own := RX5) hE (cW_WA ad κ) (by decide) rfl rfl (Nat.le_of_ble_eq_true rfl) (fun Γ Qc G X9 hret => ?_)
  exact r_throw G X9 hT hfl (k := 5) (by decide) mX5_takeOut_k19 mX5_takeOut_i5 tX5_takeOut_23 oX5_23 bX5_23 sX5_21 dX5_takeOut_0 dX5_takeOut_3 dX5_takeOut_4 dX5_takeOut_6 dX5_takeOut_9 (Option.some.inj h).symm (Nat.le_of_ble_eq_true rfl) (Nat.le_of_ble_eq_true rfl) (Nat.le_of_ble_eq_true rfl) (Nat.le_of_ble_eq_true rfl)
abbrev rmX5_combine : Room := { frames := 6, cells := 1, slots := 6, locals := 92 }
set_option maxRecDepth 20000 in
theorem mX5_combine_k19 : Cond.classLink RX5 19 "java/lang/UnsupportedOperationException" ∈ wsX5_combine := by decide +kernel
set_option maxRecDepth 20000 in
theorem mX5_combine_i5 : Cond.initialized "java/lang/UnsupportedOperationException" ∈ wsX5_combine := by decide +kernel
set_option maxRecDepth 20000 in
theorem tX5_combine_23 : ∀ w ∈ (vx_atS RX5 23 "java/lang/UnsupportedOperationException" ["java/lang/RuntimeException", "java/lang/Exception"]).filter goodWord, w ∈ wsX5_combine := by decide +kernel
set_option maxHeartbeats 4000000 in
set_option maxRecDepth 100000 in
theorem qX5_combine {E : evT} {l : Launch} {D : va_G} {ad : Nat → Nat} {κ : Nat → ClassId} (hE : EvOk E) (hT : TOk E) (hfl : l.stackTraces = false) (v : Nat) (hv : 58 ≤ v ∧ v < 66) (p0 : Int32) (p1 : Nat) (hp1 : p1 < 55) (s : cS) {o : ((Nat × cS) ⊕ (Int32 × cS))} (h : fX5_combine v p0 p1 s = some o) : Xi l yX5_combine wsX5_combine rmX5_combine (cW ad κ) E D (tyA κ) .boolean [.ref (ad v), .int p0, .ref (ad p1)] s (fun r s2 => o = .inr (r, s2)) (fun e s2 => o = .inl (e, s2)) := by
  rw [fX5_combine] at h
  refine s_xi (cc := cX5_combine) (nL := 3) (own := RX5) hE (cW_WA ad κ) (by decide) rfl rfl (Nat.le_of_ble_eq_true rfl) (fun Γ Qc G X9 hret => ?_)
  exact r_throw G X9 hT hfl (k := 5) (by decide) mX5_combine_k19 mX5_combine_i5 tX5_combine_23 oX5_23 bX5_23 sX5_21 dX5_combine_0 dX5_combine_3 dX5_combine_4 dX5_combine_6 dX5_combine_9 (Option.some.inj h).symm (Nat.le_of_ble_eq_true rfl) (Nat.le_of_ble_eq_true rfl) (Nat.le_of_ble_eq_true rfl) (Nat.le_of_ble_eq_true rfl)
abbrev rmX5_empty : Room := { frames := 6, cells := 1, slots := 6, locals := 92 }
set_option maxRecDepth 20000 in
theorem mX5_empty_k19 : Cond.classLink RX5 19 "java/lang/UnsupportedOperationException" ∈ wsX5_empty := by decide +kernel
set_option maxRecDepth 20000 in
theorem mX5_empty_i5 : Cond.initialized "java/lang/UnsupportedOperationException" ∈ wsX5_empty := by decide +kernel
set_option maxRecDepth 20000 in
theorem tX5_empty_23 : ∀ w ∈ (vx_atS RX5 23 "java/lang/UnsupportedOperationException" ["java/lang/RuntimeException", "java/lang/Exception"]).filter goodWord, w ∈ wsX5_empty := by decide +kernel
set_option maxHeartbeats 4000000 in
set_option maxRecDepth 100000 in
theorem qX5_empty {E : evT} {l : Launch} {D : va_G} {ad : Nat → Nat} {κ : Nat → ClassId} (hE : EvOk E) (hT : TOk E) (hfl : l.stackTraces = false) (v : Nat) (hv : 58 ≤ v ∧ v < 66) (s : cS) {o : ((Nat × cS) ⊕ (cS))} (h : fX5_empty v s = some o) : Xv l yX5_empty wsX5_empty rmX5_empty (cW ad κ) E D (tyA κ)  [.ref (ad v)] s (fun s2 => o = .inr s2) (fun e s2 => o = .inl (e, s2)) := by
  rw [fX5_empty] at h
  refine s_xv (cc := cX5_empty) (nL := 1) (own := RX5) hE (cW_WA ad κ) (by decide) rfl rfl (Nat.le_of_ble_eq_true rfl) (fun Γ Qc G X9 hret => ?_)
  exact r_throw G X9 hT hfl (k := 5) (by decide) mX5_empty_k19 mX5_empty_i5 tX5_empty_23 oX5_23 bX5_23 sX5_21 dX5_empty_0 dX5_empty_3 dX5_empty_4 dX5_empty_6 dX5_empty_9 (Option.some.inj h).symm (Nat.le_of_ble_eq_true rfl) (Nat.le_of_ble_eq_true rfl) (Nat.le_of_ble_eq_true rfl) (Nat.le_of_ble_eq_true rfl)
