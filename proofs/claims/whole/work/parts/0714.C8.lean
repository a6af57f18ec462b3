abbrev rmX4_become : Room := { frames := 5, cells := 0, slots := 0, locals := 161 }
set_option maxRecDepth 20000 in
theorem kX4_become_X4 : ∀ w ∈ u_ws RX4 TX4 2, w ∈ wsX4_become := by decide +kernel
set_option maxRecDepth 20000 in
theorem mX4_become_f15 : Cond.fieldLink RX4 15 "SetCouncil$Text" "length" "I" ∈ wsX4_become := by decide +kernel
set_option maxHeartbeats 4000000 in
set_option maxRecDepth 100000 in
theorem wX4_become_L7 {E : evT} {l : Launch} {D : va_G} {ad : Nat → Nat} {κ : Nat → ClassId} (hE : EvOk E) {kK kV : Nat → Nat} (hSt : SOk E kK kV) {Γ : cxT} (G : Cx (cW ad κ) D (tyA κ) E l Γ cX4_become RX4 wsX4_become 3 rmX4_become) (z1 : Nat) (hz1 : z1 < 3) {o : (cS)} (hret : ∀ (st2 : cS) (cells slots pc : Nat) (lv : List (Nat × Value)), decode cX4_become pc = .ok (.return_, 1) → o = st2 → cells ≤ rmX4_become.cells → slots ≤ rmX4_become.slots → V (cW ad κ) D Γ st2 cells slots pc lv []) : ∀ (fuel : Nat) (x2 : Int32) (s : cS), fX4_become_L7 z1 fuel x2 s = some o → V (cW ad κ) D Γ s 0 0 7 [(0, .ref (ad 70)), (1, .ref (kK z1)), (2, .int x2)] [] := by
  intro fuel
  induction fuel with
  | zero =>
    intro _ _ h
    have h : none = some o := h
    cases h
  | succ fuel ih =>
    intro x2 s h
    rw [fX4_become_L7] at h
    refine r_iload_n G 2 rfl rfl dX4_become_7 ?_
    refine r_aload_n G 1 rfl rfl dX4_become_8 ?_
    refine r_strlen G hSt hz1 gX4_become_J0_length_8abf5 ⟨(Nat.le_of_ble_eq_true rfl), (Nat.le_of_ble_eq_true rfl)⟩ (Nat.le_of_ble_eq_true rfl) ⟨(Nat.le_of_ble_eq_true rfl), (Nat.le_of_ble_eq_true rfl)⟩ dX4_become_9 ?_
    refine r_icmp_ge G (tgt := 30) dX4_become_12 (by decide) (fun c => ?_) (fun c => ?_)
    · rw [if_pos c] at h
      exact hret _ _ _ _ _ dX4_become_30 (Option.some.inj h).symm (Nat.le_of_ble_eq_true rfl) (Nat.le_of_ble_eq_true rfl)
    · rw [if_neg c] at h
      refine r_aload_n G 0 rfl rfl dX4_become_15 ?_
      refine r_aload_n G 1 rfl rfl dX4_become_16 ?_
      refine r_iload_n G 2 rfl rfl dX4_become_17 ?_
      obtain ⟨g1, h⟩ := og h
      refine r_strat G hSt hz1 g1 gX4_become_J0_charAt_5068e ⟨(Nat.le_of_ble_eq_true rfl), (Nat.le_of_ble_eq_true rfl)⟩ (Nat.le_of_ble_eq_true rfl) ⟨(Nat.le_of_ble_eq_true rfl), (Nat.le_of_ble_eq_true rfl)⟩ dX4_become_18 ?_
      obtain ⟨o2, e2, h⟩ := ob h
      refine r_callVv G [.int (fS_at z1 x2)] (qX4_appendByte hE (fS_at z1 x2) _ e2) ⟨70, 4, _, _, rfl, (cw_TEXT ad κ _), rfl⟩ gX4_become_X4_appendByte rfl hdX4_appendByte ⟨Nat.le_of_ble_eq_true rfl, Nat.le_of_ble_eq_true rfl⟩ (Nat.le_of_ble_eq_true rfl) rfl ⟨Nat.le_of_ble_eq_true rfl, Nat.le_of_ble_eq_true rfl⟩ rfl rfl dX4_become_21 (fun s2 hp => ?_)
      have hp := hp.symm
      subst hp
      try dsimp only at h
      refine r_iinc G (j := 2) rfl (v := x2 + 1) (lv' := [(0, .ref (ad 70)), (1, .ref (kK z1)), (2, .int (x2 + 1))]) rfl [1, 2, 0] rfl (by decide) dX4_become_24 ?_
      refine r_goto G (tgt := 7) dX4_become_27 (by decide) ?_
      exact ih _ _ h
set_option maxHeartbeats 4000000 in
set_option maxRecDepth 100000 in
theorem qX4_become {E : evT} {l : Launch} {D : va_G} {ad : Nat → Nat} {κ : Nat → ClassId} (hE : EvOk E) {kK kV : Nat → Nat} (hSt : SOk E kK kV) (p0 : Nat) (hp0 : p0 < 3) (s : cS) {o : (cS)} (h : fX4_become p0 s = some o) : Cv l yX4_become wsX4_become rmX4_become (cW ad κ) E D (tyA κ)  [.ref (ad 70), .ref (kK p0)] s (fun s2 => o = s2) := by
  rw [fX4_become] at h
  refine s_v (cc := cX4_become) (nL := 3) (own := RX4) hE (cW_WA ad κ) (by decide) rfl rfl (Nat.le_of_ble_eq_true rfl) (fun Γ G hret => ?_)
  refine r_aload_n G 0 rfl rfl dX4_become_0 ?_
  refine r_iconst G (v := 0) (by decide) dX4_become_1 ?_
  refine r_put G (C := RX4) (T := TX4) (N := 2) kX4_become_X4 tyX4 tyX4_ok nmX4 70 (cw_TEXT ad κ _) rfl 1 (by decide) mX4_become_f15 rfl rfl (tyX4_ok 1 (by decide)) rfl rfl (Nat.le_of_ble_eq_true rfl) (cu_TLEN ad κ _ _) dX4_become_2 ?_
  refine r_iconst G (v := 0) (by decide) dX4_become_5 ?_
  refine r_istore_n G (lv' := [(0, .ref (ad 70)), (1, .ref (kK p0)), (2, .int 0)]) [1, 2, 0] rfl rfl (by decide) dX4_become_6 ?_
  refine wX4_become_L7 hE hSt G _ hp0 hret 1100 _ _ h
abbrev rmX7_example : Room := { frames := 7, cells := 1, slots := 6, locals := 183 }
set_option maxRecDepth 20000 in
theorem kX7_example_X7 : ∀ w ∈ u_ws RX7 TX7 8, w ∈ wsX7_example := by decide +kernel
set_option maxRecDepth 20000 in
theorem mX7_example_f42 : Cond.fieldLink RX7 42 "SetCouncil" "text" "LSetCouncil$Text;" ∈ wsX7_example := by decide +kernel
theorem hdX4_become : yX4_become.cls = RX4 ∧ yX4_become.cls ≠ "java/lang/invoke/MethodHandle" ∧ yX4_become.cls ≠ "java/lang/invoke/VarHandle" ∧ (parseMethodDescriptor yX4_become.desc).map (fun d => d.parameters.length) = some 1 := by decide +kernel
set_option maxHeartbeats 4000000 in
set_option maxRecDepth 100000 in
theorem qX7_example {E : evT} {l : Launch} {D : va_G} {ad : Nat → Nat} {κ : Nat → ClassId} (hE : EvOk E) (hT : TOk E) (hfl : l.stackTraces = false) {kK kV : Nat → Nat} (hSt : SOk E kK kV) (p0 : Int32) (s : cS) {o : ((Nat × cS) ⊕ (Int32 × cS))} (h : fX7_example p0 s = some o) : Xi l yX7_example wsX7_example rmX7_example (cW ad κ) E D (tyA κ) .int [.ref (ad 55), .int p0] s (fun r s2 => o = .inr (r, s2)) (fun e s2 => o = .inl (e, s2)) := by
  rw [fX7_example] at h
  refine s_xi (cc := cX7_example) (nL := 2) (own := RX7) hE (cW_WA ad κ) (by decide) rfl rfl (Nat.le_of_ble_eq_true rfl) (fun Γ Qc G X9 hret => ?_)
  refine r_iload_n G 1 rfl rfl dX7_example_0 ?_
  refine r_iconst G (v := 0) (by decide) dX7_example_1 ?_
  refine r_iconst G (v := 2) (by decide) dX7_example_2 ?_
  obtain ⟨o1, e1, h⟩ := ob h
  refine r_callSvx G [.int p0, .int 0, .int 2] (qX7_checkRange hE hT hfl p0 (0 : Int32) (2 : Int32) _ e1) gX7_example_X7_checkRange rfl hdX7_checkRange ⟨Nat.le_of_ble_eq_true rfl, Nat.le_of_ble_eq_true rfl⟩ (Nat.le_of_ble_eq_true rfl) rfl ⟨Nat.le_of_ble_eq_true rfl, Nat.le_of_ble_eq_true rfl⟩ rfl rfl dX7_example_3 (fun k9 st9 hp9 => by subst hp9; exact r_out G X9 (fun _ hx => nomatch hx) (Option.some.inj h).symm (Nat.le_of_ble_eq_true rfl) (Nat.le_of_ble_eq_true rfl)) (fun s1 hp => ?_)
  have hp := hp.symm
  subst hp
  try dsimp only [Sum.elim_inr] at h
  refine r_aload_n G 0 rfl rfl dX7_example_6 ?_
  refine r_get G (C := RX7) (T := TX7) (N := 8) kX7_example_X7 55 (cw_SC ad κ _) rfl 5 (by decide) mX7_example_f42 rfl rfl dX7_example_7 ?_
  refine r_iload_n G 1 rfl rfl dX7_example_10 ?_
  refine r_if_ne G (tgt := 19) dX7_example_11 (by decide) (fun c => ?_) (fun c => ?_)
  · rw [if_neg c] at h
    refine r_iload_n G 1 rfl rfl dX7_example_19 ?_
    refine r_iconst G (v := 1) (by decide) dX7_example_20 ?_
    refine r_icmp_ne G (tgt := 29) dX7_example_21 (by decide) (fun c => ?_) (fun c => ?_)
    · rw [if_neg c] at h
      refine r_ldcS G (hSt _ _ _ G.ev).2.2.2.1.2.2 dX7_example_29 ?_
      obtain ⟨o2, e2, h⟩ := ob h
      refine r_callVv G [.ref (kK 2)] (qX4_become hE hSt 2 (by decide) _ e2) ⟨70, 4, _, _, rfl, (cw_TEXT ad κ _), rfl⟩ gX7_example_X4_become rfl hdX4_become ⟨Nat.le_of_ble_eq_true rfl, Nat.le_of_ble_eq_true rfl⟩ (Nat.le_of_ble_eq_true rfl) rfl ⟨Nat.le_of_ble_eq_true rfl, Nat.le_of_ble_eq_true rfl⟩ rfl rfl dX7_example_31 (fun s2 hp => ?_)
      have hp := hp.symm
      subst hp
      try dsimp only at h
      refine r_aload_n G 0 rfl rfl dX7_example_34 ?_
      refine r_get G (C := RX7) (T := TX7) (N := 8) kX7_example_X7 55 (cw_SC ad κ _) rfl 5 (by decide) mX7_example_f42 rfl rfl dX7_example_35 ?_
      refine r_callVi G [] (qX4_length hE _) ⟨70, 4, _, _, rfl, (cw_TEXT ad κ _), rfl⟩ gX7_example_X4_length rfl hdX4_length ⟨Nat.le_of_ble_eq_true rfl, Nat.le_of_ble_eq_true rfl⟩ (Nat.le_of_ble_eq_true rfl) rfl ⟨Nat.le_of_ble_eq_true rfl, Nat.le_of_ble_eq_true rfl⟩ rfl rfl dX7_example_38 (fun r3 s3 hp hn3 => ?_)
      obtain ⟨rfl, hs⟩ := hp
      have hs := hs.symm
      subst hs
      exact hret _ _ _ _ _ _ dX7_example_41 (Option.some.inj h).symm rfl (Nat.le_of_ble_eq_true rfl) (Nat.le_of_ble_eq_true rfl)
    · rw [if_pos c] at h
      refine r_ldcS G (hSt _ _ _ G.ev).2.2.2.1.2.1 dX7_example_24 ?_
      refine r_goto G (tgt := 31) dX7_example_26 (by decide) ?_
      obtain ⟨o4, e4, h⟩ := ob h
      refine r_callVv G [.ref (kK 1)] (qX4_become hE hSt 1 (by decide) _ e4) ⟨70, 4, _, _, rfl, (cw_TEXT ad κ _), rfl⟩ gX7_example_X4_become rfl hdX4_become ⟨Nat.le_of_ble_eq_true rfl, Nat.le_of_ble_eq_true rfl⟩ (Nat.le_of_ble_eq_true rfl) rfl ⟨Nat.le_of_ble_eq_true rfl, Nat.le_of_ble_eq_true rfl⟩ rfl rfl dX7_example_31 (fun s4 hp => ?_)
      have hp := hp.symm
      subst hp
      try dsimp only at h
      refine r_aload_n G 0 rfl rfl dX7_example_34 ?_
      refine r_get G (C := RX7) (T := TX7) (N := 8) kX7_example_X7 55 (cw_SC ad κ _) rfl 5 (by decide) mX7_example_f42 rfl rfl dX7_example_35 ?_
      refine r_callVi G [] (qX4_length hE _) ⟨70, 4, _, _, rfl, (cw_TEXT ad κ _), rfl⟩ gX7_example_X4_length rfl hdX4_length ⟨Nat.le_of_ble_eq_true rfl, Nat.le_of_ble_eq_true rfl⟩ (Nat.le_of_ble_eq_true rfl) rfl ⟨Nat.le_of_ble_eq_true rfl, Nat.le_of_ble_eq_true rfl⟩ rfl rfl dX7_example_38 (fun r5 s5 hp hn5 => ?_)
      obtain ⟨rfl, hs⟩ := hp
      have hs := hs.symm
      subst hs
      exact hret _ _ _ _ _ _ dX7_example_41 (Option.some.inj h).symm rfl (Nat.le_of_ble_eq_true rfl) (Nat.le_of_ble_eq_true rfl)
  · rw [if_pos c] at h
    refine r_ldcS G (hSt _ _ _ G.ev).2.2.2.1.1 dX7_example_14 ?_
    refine r_goto G (tgt := 31) dX7_example_16 (by decide) ?_
    obtain ⟨o6, e6, h⟩ := ob h
    refine r_callVv G [.ref (kK 0)] (qX4_become hE hSt 0 (by decide) _ e6) ⟨70, 4, _, _, rfl, (cw_TEXT ad κ _), rfl⟩ gX7_example_X4_become rfl hdX4_become ⟨Nat.le_of_ble_eq_true rfl, Nat.le_of_ble_eq_true rfl⟩ (Nat.le_of_ble_eq_true rfl) rfl ⟨Nat.le_of_ble_eq_true rfl, Nat.le_of_ble_eq_true rfl⟩ rfl rfl dX7_example_31 (fun s6 hp => ?_)
    have hp := hp.symm
    subst hp
    try dsimp only at h
    refine r_aload_n G 0 rfl rfl dX7_example_34 ?_
    refine r_get G (C := RX7) (T := TX7) (N := 8) kX7_example_X7 55 (cw_SC ad κ _) rfl 5 (by decide) mX7_example_f42 rfl rfl dX7_example_35 ?_
    refine r_callVi G [] (qX4_length hE _) ⟨70, 4, _, _, rfl, (cw_TEXT ad κ _), rfl⟩ gX7_example_X4_length rfl hdX4_length ⟨Nat.le_of_ble_eq_true rfl, Nat.le_of_ble_eq_true rfl⟩ (Nat.le_of_ble_eq_true rfl) rfl ⟨Nat.le_of_ble_eq_true rfl, Nat.le_of_ble_eq_true rfl⟩ rfl rfl dX7_example_38 (fun r7 s7 hp hn7 => ?_)
    obtain ⟨rfl, hs⟩ := hp
    have hs := hs.symm
    subst hs
    exact hret _ _ _ _ _ _ dX7_example_41 (Option.some.inj h).symm rfl (Nat.le_of_ble_eq_true rfl) (Nat.le_of_ble_eq_true rfl)
abbrev rmX7_meanSize : Room := { frames := 2, cells := 0, slots := 0, locals := 41 }
set_option maxRecDepth 20000 in
theorem kX7_meanSize_X7 : ∀ w ∈ u_ws RX7 TX7 8, w ∈ wsX7_meanSize := by decide +kernel
set_option maxRecDepth 20000 in
theorem mX7_meanSize_f11 : Cond.fieldLink RX7 11 "SetCouncil" "sets" "[LSetCouncil$MemberSet;" ∈ wsX7_meanSize := by decide +kernel
set_option maxRecDepth 20000 in
theorem mX7_meanSize_c260 : Cond.constantDouble RX7 260 4620693217682128896 ∈ wsX7_meanSize := by decide +kernel
set_option maxHeartbeats 4000000 in
set_option maxRecDepth 100000 in
theorem wX7_meanSize_L4 {E : evT} {l : Launch} {D : va_G} {ad : Nat → Nat} {κ : Nat → ClassId} (hE : EvOk E) {Γ : cxT} (G : Cx (cW ad κ) D (tyA κ) E l Γ cX7_meanSize RX7 wsX7_meanSize 3 rmX7_meanSize) {o : (UInt64 × cS)} (hret : ∀ (st2 : cS) (v : UInt64) (cells slots pc : Nat) (lv : List (Nat × Value)), decode cX7_meanSize pc = .ok (.dreturn, 1) → o = (v, st2) → cells ≤ rmX7_meanSize.cells → slots ≤ rmX7_meanSize.slots → V (cW ad κ) D Γ st2 cells slots pc lv [.double v]) : ∀ (fuel : Nat) (x1 : Int32) (x2 : Int32) (s : cS), fX7_meanSize_L4 fuel x1 x2 s = some o → V (cW ad κ) D Γ s 0 0 4 [(0, .ref (ad 55)), (1, .int x1), (2, .int x2)] [] := by
  intro fuel
  induction fuel with
  | zero =>
    intro _ _ _ h
    have h : none = some o := h
    cases h
  | succ fuel ih =>
    intro x1 x2 s h
    rw [fX7_meanSize_L4] at h
    refine r_iload_n G 2 rfl rfl dX7_meanSize_4 ?_
    refine r_aload_n G 0 rfl rfl dX7_meanSize_5 ?_
    refine r_get G (C := RX7) (T := TX7) (N := 8) kX7_meanSize_X7 55 (cw_SC ad κ _) rfl 0 (by decide) mX7_meanSize_f11 rfl rfl dX7_meanSize_6 ?_
    refine r_alen G 56 0 (cw_SETS ad κ _) rfl (v := 8) rfl dX7_meanSize_9 ?_
    refine r_icmp_ge G (tgt := 31) dX7_meanSize_10 (by decide) (fun c => ?_) (fun c => ?_)
    · rw [if_pos c] at h
      refine r_iload_n G 1 rfl rfl dX7_meanSize_31 ?_
      refine r_i2d G dX7_meanSize_32 ?_
      refine r_ldc2d G mX7_meanSize_c260 dX7_meanSize_33 ?_
      obtain ⟨g1, h⟩ := og h
      refine r_ddiv G g1 dX7_meanSize_36 ?_
      exact hret _ _ _ _ _ _ dX7_meanSize_37 (Option.some.inj h).symm (Nat.le_of_ble_eq_true rfl) (Nat.le_of_ble_eq_true rfl)
    · rw [if_neg c] at h
      refine r_iload_n G 1 rfl rfl dX7_meanSize_13 ?_
      refine r_aload_n G 0 rfl rfl dX7_meanSize_14 ?_
      refine r_get G (C := RX7) (T := TX7) (N := 8) kX7_meanSize_X7 55 (cw_SC ad κ _) rfl 0 (by decide) mX7_meanSize_f11 rfl rfl dX7_meanSize_15 ?_
      refine r_iload_n G 2 rfl rfl dX7_meanSize_18 ?_
      obtain ⟨g2, h⟩ := og h
      refine r_aldq G 56 0 (cw_SETS ad κ _) rfl (vin_in g2) rfl dX7_meanSize_19 ?_
      refine r_callVi G [] (qX2_count hE x2.toNatClampNeg (by have := vin_lt g2; omega) _) ⟨x2.toNatClampNeg, 2, _, _, rfl, (cw_MS ad κ _ (by have := vin_lt g2; omega)), rfl⟩ gX7_meanSize_X2_count rfl hdX2_count ⟨Nat.le_of_ble_eq_true rfl, Nat.le_of_ble_eq_true rfl⟩ (Nat.le_of_ble_eq_true rfl) rfl ⟨Nat.le_of_ble_eq_true rfl, Nat.le_of_ble_eq_true rfl⟩ rfl rfl dX7_meanSize_20 (fun r3 s3 hp hn3 => ?_)
      obtain ⟨rfl, hs⟩ := hp
      have hs := hs.symm
      subst hs
      refine r_iadd G dX7_meanSize_23 ?_
      refine r_istore_n G (lv' := [(0, .ref (ad 55)), (1, .int (x1 + (fX2_count x2.toNatClampNeg s))), (2, .int x2)]) [1, 0, 2] rfl rfl (by decide) dX7_meanSize_24 ?_
      refine r_iinc G (j := 2) rfl (v := x2 + 1) (lv' := [(0, .ref (ad 55)), (1, .int (x1 + (fX2_count x2.toNatClampNeg s))), (2, .int (x2 + 1))]) rfl [1, 2, 0] rfl (by decide) dX7_meanSize_25 ?_
      refine r_goto G (tgt := 4) dX7_meanSize_28 (by decide) ?_
      exact ih _ _ _ h
set_option maxHeartbeats 4000000 in
set_option maxRecDepth 100000 in
theorem qX7_meanSize {E : evT} {l : Launch} {D : va_G} {ad : Nat → Nat} {κ : Nat → ClassId} (hE : EvOk E) (s : cS) {o : (UInt64 × cS)} (h : fX7_meanSize s = some o) : Cd l yX7_meanSize wsX7_meanSize rmX7_meanSize (cW ad κ) E D (tyA κ)  [.ref (ad 55)] s (fun r s2 => o = (r, s2)) := by
  rw [fX7_meanSize] at h
  refine s_d (cc := cX7_meanSize) (nL := 3) (own := RX7) hE (cW_WA ad κ) (plainFor_of_name (by decide)) rfl rfl (Nat.le_of_ble_eq_true rfl) (fun Γ G hret => ?_)
  refine r_iconst G (v := 0) (by decide) dX7_meanSize_0 ?_
  refine r_istore_n G (lv' := [(0, .ref (ad 55)), (1, .int 0)]) [1, 0] rfl rfl (by decide) dX7_meanSize_1 ?_
  refine r_iconst G (v := 0) (by decide) dX7_meanSize_2 ?_
  refine r_istore_n G (lv' := [(0, .ref (ad 55)), (1, .int 0), (2, .int 0)]) [1, 2, 0] rfl rfl (by decide) dX7_meanSize_3 ?_
  refine wX7_meanSize_L4 hE G hret 1100 _ _ _ h
abbrev rmX7_nothingShare : Room := { frames := 2, cells := 0, slots := 0, locals := 46 }
set_option maxRecDepth 20000 in
theorem mX7_nothingShare_c262 : Cond.constantFloat RX7 262 1090519040 ∈ wsX7_nothingShare := by decide +kernel
set_option maxHeartbeats 4000000 in
set_option maxRecDepth 100000 in
theorem qX7_nothingShare {E : evT} {l : Launch} {D : va_G} {ad : Nat → Nat} {κ : Nat → ClassId} (hE : EvOk E) (s : cS) {o : (UInt32 × cS)} (h : fX7_nothingShare s = some o) : Cf l yX7_nothingShare wsX7_nothingShare rmX7_nothingShare (cW ad κ) E D (tyA κ)  [.ref (ad 55)] s (fun r s2 => o = (r, s2)) := by
  rw [fX7_nothingShare] at h
  refine s_f (cc := cX7_nothingShare) (nL := 1) (own := RX7) hE (cW_WA ad κ) (plainFor_of_name (by decide)) rfl rfl (Nat.le_of_ble_eq_true rfl) (fun Γ G hret => ?_)
  refine r_aload_n G 0 rfl rfl dX7_nothingShare_0 ?_
  refine r_iconst G (v := 0) (by decide) dX7_nothingShare_1 ?_
  obtain ⟨o1, e1, h⟩ := ob h
  refine r_callVi G [.int 0] (qX7_votesFor hE (0 : Int32) _ e1) ⟨55, 7, _, _, rfl, (cw_SC ad κ _), rfl⟩ gX7_nothingShare_X7_votesFor rfl hdX7_votesFor ⟨Nat.le_of_ble_eq_true rfl, Nat.le_of_ble_eq_true rfl⟩ (Nat.le_of_ble_eq_true rfl) rfl ⟨Nat.le_of_ble_eq_true rfl, Nat.le_of_ble_eq_true rfl⟩ rfl rfl dX7_nothingShare_2 (fun r1 s1 hp hn1 => ?_)
  subst hp
  try dsimp only at h
  refine r_i2f G dX7_nothingShare_5 ?_
  refine r_ldcwf G mX7_nothingShare_c262 dX7_nothingShare_6 ?_
  obtain ⟨g2, h⟩ := og h
  refine r_fdiv G g2 dX7_nothingShare_9 ?_
  exact hret _ _ _ _ _ _ dX7_nothingShare_10 (Option.some.inj h).symm (Nat.le_of_ble_eq_true rfl) (Nat.le_of_ble_eq_true rfl)
