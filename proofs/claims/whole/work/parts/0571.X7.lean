abbrev rmX7_least : Room := { frames := 7, cells := 2, slots := 12, locals := 113 }
theorem hdX2_firstNumber : yX2_firstNumber.cls = RX2 ∧ yX2_firstNumber.cls ≠ "java/lang/invoke/MethodHandle" ∧ yX2_firstNumber.cls ≠ "java/lang/invoke/VarHandle" ∧ (parseMethodDescriptor yX2_firstNumber.desc).map (fun d => d.parameters.length) = some 0 := by decide +kernel
theorem hdX7_numberOf : yX7_numberOf.cls ≠ "java/lang/invoke/MethodHandle" ∧ yX7_numberOf.cls ≠ "java/lang/invoke/VarHandle" ∧ (parseMethodDescriptor yX7_numberOf.desc).map (fun d => d.parameters.length) = some 1 := by decide +kernel
set_option maxHeartbeats 4000000 in
set_option maxRecDepth 100000 in
theorem qX7_least {E : evT} {l : Launch} {D : va_G} {ad : Nat → Nat} {κ : Nat → ClassId} (hE : EvOk E) (hT : TOk E) (hfl : l.stackTraces = false) (p0 : Int32) (s : cS) {o : ((Nat × cS) ⊕ (Int32 × cS))} (h : fX7_least p0 s = some o) : Xi l yX7_least wsX7_least rmX7_least (cW ad κ) E D (tyA κ) .int [.ref (ad 55), .int p0] s (fun r s2 => o = .inr (r, s2)) (fun e s2 => o = .inl (e, s2)) := by
  rw [fX7_least] at h
  refine s_xi (cc := cX7_least) (nL := 2) (own := RX7) hE (cW_WA ad κ) (by decide) rfl rfl (Nat.le_of_ble_eq_true rfl) (fun Γ Qc G X9 hret => ?_)
  refine r_aload_n G 0 rfl rfl dX7_least_0 ?_
  refine r_iload_n G 1 rfl rfl dX7_least_1 ?_
  obtain ⟨o1, e1, h⟩ := ob h
  refine r_callVrx G [.int p0] (qX7_setAt hE hT hfl p0 _ e1) ⟨55, 7, _, _, rfl, (cw_SC ad κ _), rfl⟩ gX7_least_X7_setAt rfl hdX7_setAt ⟨Nat.le_of_ble_eq_true rfl, Nat.le_of_ble_eq_true rfl⟩ (Nat.le_of_ble_eq_true rfl) rfl ⟨Nat.le_of_ble_eq_true rfl, Nat.le_of_ble_eq_true rfl⟩ rfl rfl dX7_least_2 (fun k9 st9 hp9 => by subst hp9; exact r_out G X9 (fun _ hx => nomatch hx) (Option.some.inj h).symm (Nat.le_of_ble_eq_true rfl) (Nat.le_of_ble_eq_true rfl)) (fun r1 s1 hp => ?_)
  subst hp
  try dsimp only [Sum.elim_inr] at h
  obtain ⟨g2, h⟩ := og h
  obtain ⟨o3, e3, h⟩ := ob h
  refine r_callVi G [] (qX2_firstNumber hE r1 g2 _ e3) ⟨r1, 2, _, _, rfl, (cw_MS ad κ _ g2), rfl⟩ gX7_least_X2_firstNumber rfl hdX2_firstNumber ⟨Nat.le_of_ble_eq_true rfl, Nat.le_of_ble_eq_true rfl⟩ (Nat.le_of_ble_eq_true rfl) rfl ⟨Nat.le_of_ble_eq_true rfl, Nat.le_of_ble_eq_true rfl⟩ rfl rfl dX7_least_5 (fun r3 s3 hp hn3 => ?_)
  subst hp
  try dsimp only at h
  obtain ⟨o4, e4, h⟩ := ob h
  refine r_callSix G [.int r3] (qX7_numberOf hE hT hfl r3 _ e4) gX7_least_X7_numberOf rfl hdX7_numberOf ⟨Nat.le_of_ble_eq_true rfl, Nat.le_of_ble_eq_true rfl⟩ (Nat.le_of_ble_eq_true rfl) rfl ⟨Nat.le_of_ble_eq_true rfl, Nat.le_of_ble_eq_true rfl⟩ rfl rfl dX7_least_8 (fun k9 st9 hp9 => by subst hp9; exact r_out G X9 (fun _ hx => nomatch hx) (Option.some.inj h).symm (Nat.le_of_ble_eq_true rfl) (Nat.le_of_ble_eq_true rfl)) (fun r4 s4 hp hn4 => ?_)
  subst hp
  try dsimp only [Sum.elim_inr] at h
  exact hret _ _ _ _ _ _ dX7_least_11 (Option.some.inj h).symm rfl (Nat.le_of_ble_eq_true rfl) (Nat.le_of_ble_eq_true rfl)
abbrev rmX7_greatest : Room := { frames := 7, cells := 2, slots := 12, locals := 113 }
theorem hdX2_lastNumber : yX2_lastNumber.cls = RX2 ∧ yX2_lastNumber.cls ≠ "java/lang/invoke/MethodHandle" ∧ yX2_lastNumber.cls ≠ "java/lang/invoke/VarHandle" ∧ (parseMethodDescriptor yX2_lastNumber.desc).map (fun d => d.parameters.length) = some 0 := by decide +kernel
set_option maxHeartbeats 4000000 in
set_option maxRecDepth 100000 in
theorem qX7_greatest {E : evT} {l : Launch} {D : va_G} {ad : Nat → Nat} {κ : Nat → ClassId} (hE : EvOk E) (hT : TOk E) (hfl : l.stackTraces = false) (p0 : Int32) (s : cS) {o : ((Nat × cS) ⊕ (Int32 × cS))} (h : fX7_greatest p0 s = some o) : Xi l yX7_greatest wsX7_greatest rmX7_greatest (cW ad κ) E D (tyA κ) .int [.ref (ad 55), .int p0] s (fun r s2 => o = .inr (r, s2)) (fun e s2 => o = .inl (e, s2)) := by
  rw [fX7_greatest] at h
  refine s_xi (cc := cX7_greatest) (nL := 2) (own := RX7) hE (cW_WA ad κ) (by decide) rfl rfl (Nat.le_of_ble_eq_true rfl) (fun Γ Qc G X9 hret => ?_)
  refine r_aload_n G 0 rfl rfl dX7_greatest_0 ?_
  refine r_iload_n G 1 rfl rfl dX7_greatest_1 ?_
  obtain ⟨o1, e1, h⟩ := ob h
  refine r_callVrx G [.int p0] (qX7_setAt hE hT hfl p0 _ e1) ⟨55, 7, _, _, rfl, (cw_SC ad κ _), rfl⟩ gX7_greatest_X7_setAt rfl hdX7_setAt ⟨Nat.le_of_ble_eq_true rfl, Nat.le_of_ble_eq_true rfl⟩ (Nat.le_of_ble_eq_true rfl) rfl ⟨Nat.le_of_ble_eq_true rfl, Nat.le_of_ble_eq_true rfl⟩ rfl rfl dX7_greatest_2 (fun k9 st9 hp9 => by subst hp9; exact r_out G X9 (fun _ hx => nomatch hx) (Option.some.inj h).symm (Nat.le_of_ble_eq_true rfl) (Nat.le_of_ble_eq_true rfl)) (fun r1 s1 hp => ?_)
  subst hp
  try dsimp only [Sum.elim_inr] at h
  obtain ⟨g2, h⟩ := og h
  obtain ⟨o3, e3, h⟩ := ob h
  refine r_callVi G [] (qX2_lastNumber hE r1 g2 _ e3) ⟨r1, 2, _, _, rfl, (cw_MS ad κ _ g2), rfl⟩ gX7_greatest_X2_lastNumber rfl hdX2_lastNumber ⟨Nat.le_of_ble_eq_true rfl, Nat.le_of_ble_eq_true rfl⟩ (Nat.le_of_ble_eq_true rfl) rfl ⟨Nat.le_of_ble_eq_true rfl, Nat.le_of_ble_eq_true rfl⟩ rfl rfl dX7_greatest_5 (fun r3 s3 hp hn3 => ?_)
  subst hp
  try dsimp only at h
  obtain ⟨o4, e4, h⟩ := ob h
  refine r_callSix G [.int r3] (qX7_numberOf hE hT hfl r3 _ e4) gX7_greatest_X7_numberOf rfl hdX7_numberOf ⟨Nat.le_of_ble_eq_true rfl, Nat.le_of_ble_eq_true rfl⟩ (Nat.le_of_ble_eq_true rfl) rfl ⟨Nat.le_of_ble_eq_true rfl, Nat.le_of_ble_eq_true rfl⟩ rfl rfl dX7_greatest_8 (fun k9 st9 hp9 => by subst hp9; exact r_out G X9 (fun _ hx => nomatch hx) (Option.some.inj h).symm (Nat.le_of_ble_eq_true rfl) (Nat.le_of_ble_eq_true rfl)) (fun r4 s4 hp hn4 => ?_)
  subst hp
  try dsimp only [Sum.elim_inr] at h
  exact hret _ _ _ _ _ _ dX7_greatest_11 (Option.some.inj h).symm rfl (Nat.le_of_ble_eq_true rfl) (Nat.le_of_ble_eq_true rfl)
abbrev rmX7_unite : Room := { frames := 7, cells := 2, slots := 12, locals := 113 }
set_option maxHeartbeats 4000000 in
set_option maxRecDepth 100000 in
theorem qX7_unite {E : evT} {l : Launch} {D : va_G} {ad : Nat → Nat} {κ : Nat → ClassId} (hE : EvOk E) (hT : TOk E) (hfl : l.stackTraces = false) (p0 : Int32) (p1 : Int32) (s : cS) {o : ((Nat × cS) ⊕ (Int32 × cS))} (h : fX7_unite p0 p1 s = some o) : Xi l yX7_unite wsX7_unite rmX7_unite (cW ad κ) E D (tyA κ) .boolean [.ref (ad 55), .int p0, .int p1] s (fun r s2 => o = .inr (r, s2)) (fun e s2 => o = .inl (e, s2)) := by
  rw [fX7_unite] at h
  refine s_xi (cc := cX7_unite) (nL := 3) (own := RX7) hE (cW_WA ad κ) (by decide) rfl rfl (Nat.le_of_ble_eq_true rfl) (fun Γ Qc G X9 hret => ?_)
  refine r_aload_n G 0 rfl rfl dX7_unite_0 ?_
  refine r_iload_n G 1 rfl rfl dX7_unite_1 ?_
  obtain ⟨o1, e1, h⟩ := ob h
  refine r_callVrx G [.int p0] (qX7_setAt hE hT hfl p0 _ e1) ⟨55, 7, _, _, rfl, (cw_SC ad κ _), rfl⟩ gX7_unite_X7_setAt rfl hdX7_setAt ⟨Nat.le_of_ble_eq_true rfl, Nat.le_of_ble_eq_true rfl⟩ (Nat.le_of_ble_eq_true rfl) rfl ⟨Nat.le_of_ble_eq_true rfl, Nat.le_of_ble_eq_true rfl⟩ rfl rfl dX7_unite_2 (fun k9 st9 hp9 => by subst hp9; exact r_out G X9 (fun _ hx => nomatch hx) (Option.some.inj h).symm (Nat.le_of_ble_eq_true rfl) (Nat.le_of_ble_eq_true rfl)) (fun r1 s1 hp => ?_)
  subst hp
  try dsimp only [Sum.elim_inr] at h
  obtain ⟨g2, h⟩ := og h
  refine r_iconst G (v := 0) (by decide) dX7_unite_5 ?_
  refine r_aload_n G 0 rfl rfl dX7_unite_6 ?_
  refine r_iload_n G 2 rfl rfl dX7_unite_7 ?_
  obtain ⟨o3, e3, h⟩ := ob h
  refine r_callVrx G [.int p1] (qX7_setAt hE hT hfl p1 _ e3) ⟨55, 7, _, _, rfl, (cw_SC ad κ _), rfl⟩ gX7_unite_X7_setAt rfl hdX7_setAt ⟨Nat.le_of_ble_eq_true rfl, Nat.le_of_ble_eq_true rfl⟩ (Nat.le_of_ble_eq_true rfl) rfl ⟨Nat.le_of_ble_eq_true rfl, Nat.le_of_ble_eq_true rfl⟩ rfl rfl dX7_unite_8 (fun k9 st9 hp9 => by subst hp9; exact r_out G X9 (fun _ hx => nomatch hx) (Option.some.inj h).symm (Nat.le_of_ble_eq_true rfl) (Nat.le_of_ble_eq_true rfl)) (fun r3 s3 hp => ?_)
  subst hp
  try dsimp only [Sum.elim_inr] at h
  obtain ⟨g4, h⟩ := og h
  obtain ⟨o5, e5, h⟩ := ob h
  refine r_callVi G [.int 0, .ref (ad r3)] (qX2_combine hE r1 g2 (0 : Int32) r3 g4 _ e5) ⟨r1, 2, _, _, rfl, (cw_MS ad κ _ g2), rfl⟩ gX7_unite_X2_combine rfl hdX2_combine ⟨Nat.le_of_ble_eq_true rfl, Nat.le_of_ble_eq_true rfl⟩ (Nat.le_of_ble_eq_true rfl) rfl ⟨Nat.le_of_ble_eq_true rfl, Nat.le_of_ble_eq_true rfl⟩ rfl rfl dX7_unite_11 (fun r5 s5 hp hn5 => ?_)
  subst hp
  try dsimp only at h
  exact hret _ _ _ _ _ _ dX7_unite_14 (Option.some.inj h).symm hn5 (Nat.le_of_ble_eq_true rfl) (Nat.le_of_ble_eq_true rfl)
abbrev rmX7_meet : Room := { frames := 7, cells := 2, slots := 12, locals := 113 }
set_option maxHeartbeats 4000000 in
set_option maxRecDepth 100000 in
theorem qX7_meet {E : evT} {l : Launch} {D : va_G} {ad : Nat → Nat} {κ : Nat → ClassId} (hE : EvOk E) (hT : TOk E) (hfl : l.stackTraces = false) (p0 : Int32) (p1 : Int32) (s : cS) {o : ((Nat × cS) ⊕ (Int32 × cS))} (h : fX7_meet p0 p1 s = some o) : Xi l yX7_meet wsX7_meet rmX7_meet (cW ad κ) E D (tyA κ) .boolean [.ref (ad 55), .int p0, .int p1] s (fun r s2 => o = .inr (r, s2)) (fun e s2 => o = .inl (e, s2)) := by
  rw [fX7_meet] at h
  refine s_xi (cc := cX7_meet) (nL := 3) (own := RX7) hE (cW_WA ad κ) (by decide) rfl rfl (Nat.le_of_ble_eq_true rfl) (fun Γ Qc G X9 hret => ?_)
  refine r_aload_n G 0 rfl rfl dX7_meet_0 ?_
  refine r_iload_n G 1 rfl rfl dX7_meet_1 ?_
  obtain ⟨o1, e1, h⟩ := ob h
  refine r_callVrx G [.int p0] (qX7_setAt hE hT hfl p0 _ e1) ⟨55, 7, _, _, rfl, (cw_SC ad κ _), rfl⟩ gX7_meet_X7_setAt rfl hdX7_setAt ⟨Nat.le_of_ble_eq_true rfl, Nat.le_of_ble_eq_true rfl⟩ (Nat.le_of_ble_eq_true rfl) rfl ⟨Nat.le_of_ble_eq_true rfl, Nat.le_of_ble_eq_true rfl⟩ rfl rfl dX7_meet_2 (fun k9 st9 hp9 => by subst hp9; exact r_out G X9 (fun _ hx => nomatch hx) (Option.some.inj h).symm (Nat.le_of_ble_eq_true rfl) (Nat.le_of_ble_eq_true rfl)) (fun r1 s1 hp => ?_)
  subst hp
  try dsimp only [Sum.elim_inr] at h
  obtain ⟨g2, h⟩ := og h
  refine r_iconst G (v := 1) (by decide) dX7_meet_5 ?_
  refine r_aload_n G 0 rfl rfl dX7_meet_6 ?_
  refine r_iload_n G 2 rfl rfl dX7_meet_7 ?_
  obtain ⟨o3, e3, h⟩ := ob h
  refine r_callVrx G [.int p1] (qX7_setAt hE hT hfl p1 _ e3) ⟨55, 7, _, _, rfl, (cw_SC ad κ _), rfl⟩ gX7_meet_X7_setAt rfl hdX7_setAt ⟨Nat.le_of_ble_eq_true rfl, Nat.le_of_ble_eq_true rfl⟩ (Nat.le_of_ble_eq_true rfl) rfl ⟨Nat.le_of_ble_eq_true rfl, Nat.le_of_ble_eq_true rfl⟩ rfl rfl dX7_meet_8 (fun k9 st9 hp9 => by subst hp9; exact r_out G X9 (fun _ hx => nomatch hx) (Option.some.inj h).symm (Nat.le_of_ble_eq_true rfl) (Nat.le_of_ble_eq_true rfl)) (fun r3 s3 hp => ?_)
  subst hp
  try dsimp only [Sum.elim_inr] at h
  obtain ⟨g4, h⟩ := og h
  obtain ⟨o5, e5, h⟩ := ob h
  refine r_callVi G [.int 1, .ref (ad r3)] (qX2_combine hE r1 g2 (1 : Int32) r3 g4 _ e5) ⟨r1, 2, _, _, rfl, (cw_MS ad κ _ g2), rfl⟩ gX7_meet_X2_combine rfl hdX2_combine ⟨Nat.le_of_ble_eq_true rfl, Nat.le_of_ble_eq_true rfl⟩ (Nat.le_of_ble_eq_true rfl) rfl ⟨Nat.le_of_ble_eq_true rfl, Nat.le_of_ble_eq_true rfl⟩ rfl rfl dX7_meet_11 (fun r5 s5 hp hn5 => ?_)
  subst hp
  try dsimp only at h
  exact hret _ _ _ _ _ _ dX7_meet_14 (Option.some.inj h).symm hn5 (Nat.le_of_ble_eq_true rfl) (Nat.le_of_ble_eq_true rfl)
abbrev rmX7_without : Room := { frames := 7, cells := 2, slots := 12, locals := 113 }
set_option maxHeartbeats 4000000 in
set_option maxRecDepth 100000 in
theorem qX7_without {E : evT} {l : Launch} {D : va_G} {ad : Nat → Nat} {κ : Nat → ClassId} (hE : EvOk E) (hT : TOk E) (hfl : l.stackTraces = false) (p0 : Int32) (p1 : Int32) (s : cS) {o : ((Nat × cS) ⊕ (Int32 × cS))} (h : fX7_without p0 p1 s = some o) : Xi l yX7_without wsX7_without rmX7_without (cW ad κ) E D (tyA κ) .boolean [.ref (ad 55), .int p0, .int p1] s (fun r s2 => o = .inr (r, s2)) (fun e s2 => o = .inl (e, s2)) := by
  rw [fX7_without] at h
  refine s_xi (cc := cX7_without) (nL := 3) (own := RX7) hE (cW_WA ad κ) (by decide) rfl rfl (Nat.le_of_ble_eq_true rfl) (fun Γ Qc G X9 hret => ?_)
  refine r_aload_n G 0 rfl rfl dX7_without_0 ?_
  refine r_iload_n G 1 rfl rfl dX7_without_1 ?_
  obtain ⟨o1, e1, h⟩ := ob h
  refine r_callVrx G [.int p0] (qX7_setAt hE hT hfl p0 _ e1) ⟨55, 7, _, _, rfl, (cw_SC ad κ _), rfl⟩ gX7_without_X7_setAt rfl hdX7_setAt ⟨Nat.le_of_ble_eq_true rfl, Nat.le_of_ble_eq_true rfl⟩ (Nat.le_of_ble_eq_true rfl) rfl ⟨Nat.le_of_ble_eq_true rfl, Nat.le_of_ble_eq_true rfl⟩ rfl rfl dX7_without_2 (fun k9 st9 hp9 => by subst hp9; exact r_out G X9 (fun _ hx => nomatch hx) (Option.some.inj h).symm (Nat.le_of_ble_eq_true rfl) (Nat.le_of_ble_eq_true rfl)) (fun r1 s1 hp => ?_)
  subst hp
  try dsimp only [Sum.elim_inr] at h
  obtain ⟨g2, h⟩ := og h
  refine r_iconst G (v := 2) (by decide) dX7_without_5 ?_
  refine r_aload_n G 0 rfl rfl dX7_without_6 ?_
  refine r_iload_n G 2 rfl rfl dX7_without_7 ?_
  obtain ⟨o3, e3, h⟩ := ob h
  refine r_callVrx G [.int p1] (qX7_setAt hE hT hfl p1 _ e3) ⟨55, 7, _, _, rfl, (cw_SC ad κ _), rfl⟩ gX7_without_X7_setAt rfl hdX7_setAt ⟨Nat.le_of_ble_eq_true rfl, Nat.le_of_ble_eq_true rfl⟩ (Nat.le_of_ble_eq_true rfl) rfl ⟨Nat.le_of_ble_eq_true rfl, Nat.le_of_ble_eq_true rfl⟩ rfl rfl dX7_without_8 (fun k9 st9 hp9 => by subst hp9; exact r_out G X9 (fun _ hx => nomatch hx) (Option.some.inj h).symm (Nat.le_of_ble_eq_true rfl) (Nat.le_of_ble_eq_true rfl)) (fun r3 s3 hp => ?_)
  subst hp
  try dsimp only [Sum.elim_inr] at h
  obtain ⟨g4, h⟩ := og h
  obtain ⟨o5, e5, h⟩ := ob h
  refine r_callVi G [.int 2, .ref (ad r3)] (qX2_combine hE r1 g2 (2 : Int32) r3 g4 _ e5) ⟨r1, 2, _, _, rfl, (cw_MS ad κ _ g2), rfl⟩ gX7_without_X2_combine rfl hdX2_combine ⟨Nat.le_of_ble_eq_true rfl, Nat.le_of_ble_eq_true rfl⟩ (Nat.le_of_ble_eq_true rfl) rfl ⟨Nat.le_of_ble_eq_true rfl, Nat.le_of_ble_eq_true rfl⟩ rfl rfl dX7_without_11 (fun r5 s5 hp hn5 => ?_)
  subst hp
  try dsimp only at h
  exact hret _ _ _ _ _ _ dX7_without_14 (Option.some.inj h).symm hn5 (Nat.le_of_ble_eq_true rfl) (Nat.le_of_ble_eq_true rfl)
abbrev rmX7_copy : Room := { frames := 7, cells := 2, slots := 12, locals := 113 }
set_option maxHeartbeats 4000000 in
set_option maxRecDepth 100000 in
theorem qX7_copy {E : evT} {l : Launch} {D : va_G} {ad : Nat → Nat} {κ : Nat → ClassId} (hE : EvOk E) (hT : TOk E) (hfl : l.stackTraces = false) (p0 : Int32) (p1 : Int32) (s : cS) {o : ((Nat × cS) ⊕ (Int32 × cS))} (h : fX7_copy p0 p1 s = some o) : Xi l yX7_copy wsX7_copy rmX7_copy (cW ad κ) E D (tyA κ) .int [.ref (ad 55), .int p0, .int p1] s (fun r s2 => o = .inr (r, s2)) (fun e s2 => o = .inl (e, s2)) := by
  rw [fX7_copy] at h
  refine s_xi (cc := cX7_copy) (nL := 4) (own := RX7) hE (cW_WA ad κ) (by decide) rfl rfl (Nat.le_of_ble_eq_true rfl) (fun Γ Qc G X9 hret => ?_)
  refine r_aload_n G 0 rfl rfl dX7_copy_0 ?_
  refine r_iload_n G 1 rfl rfl dX7_copy_1 ?_
  obtain ⟨o1, e1, h⟩ := ob h
  refine r_callVrx G [.int p0] (qX7_setAt hE hT hfl p0 _ e1) ⟨55, 7, _, _, rfl, (cw_SC ad κ _), rfl⟩ gX7_copy_X7_setAt rfl hdX7_setAt ⟨Nat.le_of_ble_eq_true rfl, Nat.le_of_ble_eq_true rfl⟩ (Nat.le_of_ble_eq_true rfl) rfl ⟨Nat.le_of_ble_eq_true rfl, Nat.le_of_ble_eq_true rfl⟩ rfl rfl dX7_copy_2 (fun k9 st9 hp9 => by subst hp9; exact r_out G X9 (fun _ hx => nomatch hx) (Option.some.inj h).symm (Nat.le_of_ble_eq_true rfl) (Nat.le_of_ble_eq_true rfl)) (fun r1 s1 hp => ?_)
  subst hp
  try dsimp only [Sum.elim_inr] at h
  obtain ⟨g2, h⟩ := og h
  refine r_astore_n G [1, 3, 0] rfl rfl (by decide) dX7_copy_5 ?_
  refine r_aload_n G 2 rfl rfl dX7_copy_6 ?_
  refine r_aload_n G 0 rfl rfl dX7_copy_7 ?_
  refine r_iload_n G 1 rfl rfl dX7_copy_8 ?_
  obtain ⟨o3, e3, h⟩ := ob h
  refine r_callVrx G [.int p1] (qX7_setAt hE hT hfl p1 _ e3) ⟨55, 7, _, _, rfl, (cw_SC ad κ _), rfl⟩ gX7_copy_X7_setAt rfl hdX7_setAt ⟨Nat.le_of_ble_eq_true rfl, Nat.le_of_ble_eq_true rfl⟩ (Nat.le_of_ble_eq_true rfl) rfl ⟨Nat.le_of_ble_eq_true rfl, Nat.le_of_ble_eq_true rfl⟩ rfl rfl dX7_copy_9 (fun k9 st9 hp9 => by subst hp9; exact r_out G X9 (fun _ hx => nomatch hx) (Option.some.inj h).symm (Nat.le_of_ble_eq_true rfl) (Nat.le_of_ble_eq_true rfl)) (fun r3 s3 hp => ?_)
  subst hp
  try dsimp only [Sum.elim_inr] at h
  obtain ⟨g4, h⟩ := og h
  obtain ⟨o5, e5, h⟩ := ob h
  refine r_callVv G [.ref (ad r3)] (qX2_become hE r1 g2 r3 g4 _ e5) ⟨r1, 2, _, _, rfl, (cw_MS ad κ _ g2), rfl⟩ gX7_copy_X2_become rfl hdX2_become ⟨Nat.le_of_ble_eq_true rfl, Nat.le_of_ble_eq_true rfl⟩ (Nat.le_of_ble_eq_true rfl) rfl ⟨Nat.le_of_ble_eq_true rfl, Nat.le_of_ble_eq_true rfl⟩ rfl rfl dX7_copy_12 (fun s5 hp => ?_)
  have hp := hp.symm
  subst hp
  try dsimp only at h
  refine r_aload_n G 2 rfl rfl dX7_copy_15 ?_
  refine r_callVi G [] (qX2_count hE r1 g2 _) ⟨r1, 2, _, _, rfl, (cw_MS ad κ _ g2), rfl⟩ gX7_copy_X2_count rfl hdX2_count ⟨Nat.le_of_ble_eq_true rfl, Nat.le_of_ble_eq_true rfl⟩ (Nat.le_of_ble_eq_true rfl) rfl ⟨Nat.le_of_ble_eq_true rfl, Nat.le_of_ble_eq_true rfl⟩ rfl rfl dX7_copy_16 (fun r6 s6 hp hn6 => ?_)
  obtain ⟨rfl, hs⟩ := hp
  have hs := hs.symm
  subst hs
  exact hret _ _ _ _ _ _ dX7_copy_19 (Option.some.inj h).symm rfl (Nat.le_of_ble_eq_true rfl) (Nat.le_of_ble_eq_true rfl)
abbrev rmX7_sieve : Room := { frames := 7, cells := 3, slots := 18, locals := 114 }
theorem hdJ9_floorMod_7cf53 : yJ9_floorMod_7cf53.cls ≠ "java/lang/invoke/MethodHandle" ∧ yJ9_floorMod_7cf53.cls ≠ "java/lang/invoke/VarHandle" ∧ (parseMethodDescriptor yJ9_floorMod_7cf53.desc).map (fun d => d.parameters.length) = some 2 := by decide +kernel
set_option maxHeartbeats 4000000 in
set_option maxRecDepth 100000 in
theorem wX7_sieve_L32 {E : evT} {l : Launch} {D : va_G} {ad : Nat → Nat} {κ : Nat → ClassId} (hE : EvOk E) (hT : TOk E) (hfl : l.stackTraces = false) {Γ : cxT} {Qc : Array Value → State → Outcome → State → Prop} (G : Cx (cW ad κ) D (tyA κ) E l Γ cX7_sieve RX7 wsX7_sieve 7 rmX7_sieve) (x2 : Int32) (x3 : Int32) (z4 : Nat) (hz4 : z4 < 55) (x5 : Int32) {o : ((Nat × cS) ⊕ (Int32 × cS))} (X9 : Tx (cW ad κ) D Γ rmX7_sieve (fun e st2 => o = .inl (e, st2)) Qc []) (hret : ∀ (st2 : cS) (v : Int32) (cells slots pc : Nat) (lv : List (Nat × Value)), decode cX7_sieve pc = .ok (.ireturn, 1) → o = .inr (v, st2) → narrow .int (.int v) = .int v → cells ≤ rmX7_sieve.cells → slots ≤ rmX7_sieve.slots → V (cW ad κ) D Γ st2 cells slots pc lv [.int v]) {k0 : cS → Option ((Nat × cS) ⊕ (Int32 × cS))} (hk0 : ∀ (s : cS), k0 s = some o → V (cW ad κ) D Γ s 3 18 66 [(4, .ref (ad z4)), (5, .int x5)] []) : ∀ (fuel : Nat) (x6 : Int32) (s : cS), fX7_sieve_L32 x2 x3 z4 x5 k0 fuel x6 s = some o → V (cW ad κ) D Γ s 3 18 32 [(2, .int x2), (3, .int x3), (4, .ref (ad z4)), (5, .int x5), (6, .int x6)] [] := by
  intro fuel
  induction fuel with
  | zero =>
    intro _ _ h
    have h : none = some o := h
    cases h
  | succ fuel ih =>
    intro x6 s h
    rw [fX7_sieve_L32] at h
    refine r_iload G 4 rfl dX7_sieve_32 ?_
    refine r_bipush G (v := 50) (by decide) dX7_sieve_34 ?_
    refine r_icmp_gt G (tgt := 66) dX7_sieve_36 (by decide) (fun c => ?_) (fun c => ?_)
    · rw [if_pos c] at h
      refine V.sub [2, 3] rfl ?_
      exact hk0 _ h
    · rw [if_neg c] at h
      refine r_iload G 4 rfl dX7_sieve_39 ?_
      refine r_iload_n G 0 rfl rfl dX7_sieve_41 ?_
      obtain ⟨o6, e6, h⟩ := ob h
      refine r_callSi G [.int x6, .int x2] (qJ9_floorMod_7cf53 hE x6 x2 _ e6) gX7_sieve_J9_floorMod_7cf53 rfl hdJ9_floorMod_7cf53 ⟨Nat.le_of_ble_eq_true rfl, Nat.le_of_ble_eq_true rfl⟩ (Nat.le_of_ble_eq_true rfl) rfl ⟨Nat.le_of_ble_eq_true rfl, Nat.le_of_ble_eq_true rfl⟩ rfl rfl dX7_sieve_42 (fun r6 s6 hp hn6 => ?_)
      subst hp
      try dsimp only at h
      refine r_iload_n G 1 rfl rfl dX7_sieve_45 ?_
      refine r_icmp_ne G (tgt := 60) dX7_sieve_46 (by decide) (fun c => ?_) (fun c => ?_)
      · rw [if_neg c] at h
        refine r_iinc G (j := 4) rfl (v := x6 + 1) rfl [1, 2, 3, 4, 0] rfl (by decide) dX7_sieve_60 ?_
        refine r_goto G (tgt := 32) dX7_sieve_63 (by decide) ?_
        exact ih _ _ h
      · rw [if_pos c] at h
        refine r_aload G 2 rfl dX7_sieve_49 ?_
        refine r_iload G 4 rfl dX7_sieve_51 ?_
        refine r_bipush G (v := 51) (by decide) dX7_sieve_53 ?_
        refine r_iadd G dX7_sieve_55 ?_
        obtain ⟨o7, e7, h⟩ := ob h
        refine r_callVi G [.int (x6 + 51)] (qX2_takeOut hE z4 hz4 (x6 + 51) _ e7) ⟨z4, 2, _, _, rfl, (cw_MS ad κ _ hz4), rfl⟩ gX7_sieve_X2_takeOut rfl hdX2_takeOut ⟨Nat.le_of_ble_eq_true rfl, Nat.le_of_ble_eq_true rfl⟩ (Nat.le_of_ble_eq_true rfl) rfl ⟨Nat.le_of_ble_eq_true rfl, Nat.le_of_ble_eq_true rfl⟩ rfl rfl dX7_sieve_56 (fun r7 s7 hp hn7 => ?_)
        subst hp
        try dsimp only at h
        refine r_pop G rfl dX7_sieve_59 ?_
        refine r_iinc G (j := 4) rfl (v := x6 + 1) rfl [1, 2, 3, 4, 0] rfl (by decide) dX7_sieve_60 ?_
        refine r_goto G (tgt := 32) dX7_sieve_63 (by decide) ?_
        exact ih _ _ h
set_option maxHeartbeats 4000000 in
set_option maxRecDepth 100000 in
theorem qX7_sieve {E : evT} {l : Launch} {D : va_G} {ad : Nat → Nat} {κ : Nat → ClassId} (hE : EvOk E) (hT : TOk E) (hfl : l.stackTraces = false) (p0 : Int32) (p1 : Int32) (p2 : Int32) (s : cS) {o : ((Nat × cS) ⊕ (Int32 × cS))} (h : fX7_sieve p0 p1 p2 s = some o) : Xi l yX7_sieve wsX7_sieve rmX7_sieve (cW ad κ) E D (tyA κ) .int [.ref (ad 55), .int p0, .int p1, .int p2] s (fun r s2 => o = .inr (r, s2)) (fun e s2 => o = .inl (e, s2)) := by
  rw [fX7_sieve] at h
  refine s_xi (cc := cX7_sieve) (nL := 7) (own := RX7) hE (cW_WA ad κ) (by decide) rfl rfl (Nat.le_of_ble_eq_true rfl) (fun Γ Qc G X9 hret => ?_)
  refine r_aload_n G 0 rfl rfl dX7_sieve_0 ?_
  refine r_iload_n G 1 rfl rfl dX7_sieve_1 ?_
  obtain ⟨o1, e1, h⟩ := ob h
  refine r_callVrx G [.int p0] (qX7_setAt hE hT hfl p0 _ e1) ⟨55, 7, _, _, rfl, (cw_SC ad κ _), rfl⟩ gX7_sieve_X7_setAt rfl hdX7_setAt ⟨Nat.le_of_ble_eq_true rfl, Nat.le_of_ble_eq_true rfl⟩ (Nat.le_of_ble_eq_true rfl) rfl ⟨Nat.le_of_ble_eq_true rfl, Nat.le_of_ble_eq_true rfl⟩ rfl rfl dX7_sieve_2 (fun k9 st9 hp9 => by subst hp9; exact r_out G X9 (fun _ hx => nomatch hx) (Option.some.inj h).symm (Nat.le_of_ble_eq_true rfl) (Nat.le_of_ble_eq_true rfl)) (fun r1 s1 hp => ?_)
  subst hp
  try dsimp only [Sum.elim_inr] at h
  obtain ⟨g2, h⟩ := og h
  refine r_astore G [3, 4, 0] rfl (by decide) dX7_sieve_5 ?_
  refine r_iload_n G 0 rfl rfl dX7_sieve_7 ?_
  refine r_iconst G (v := 1) (by decide) dX7_sieve_8 ?_
  refine r_bipush G (v := 100) (by decide) dX7_sieve_9 ?_
  obtain ⟨o3, e3, h⟩ := ob h
  refine r_callSvx G [.int p1, .int 1, .int 100] (qX7_checkRange hE hT hfl p1 (1 : Int32) (100 : Int32) _ e3) gX7_sieve_X7_checkRange rfl hdX7_checkRange ⟨Nat.le_of_ble_eq_true rfl, Nat.le_of_ble_eq_true rfl⟩ (Nat.le_of_ble_eq_true rfl) rfl ⟨Nat.le_of_ble_eq_true rfl, Nat.le_of_ble_eq_true rfl⟩ rfl rfl dX7_sieve_11 (fun k9 st9 hp9 => by subst hp9; exact r_out G X9 (fun _ hx => nomatch hx) (Option.some.inj h).symm (Nat.le_of_ble_eq_true rfl) (Nat.le_of_ble_eq_true rfl)) (fun s3 hp => ?_)
  have hp := hp.symm
  subst hp
  try dsimp only [Sum.elim_inr] at h
  refine r_iload_n G 1 rfl rfl dX7_sieve_14 ?_
  refine r_iconst G (v := 0) (by decide) dX7_sieve_15 ?_
  refine r_bipush G (v := 99) (by decide) dX7_sieve_16 ?_
  obtain ⟨o4, e4, h⟩ := ob h
  refine r_callSvx G [.int p2, .int 0, .int 99] (qX7_checkRange hE hT hfl p2 (0 : Int32) (99 : Int32) _ e4) gX7_sieve_X7_checkRange rfl hdX7_checkRange ⟨Nat.le_of_ble_eq_true rfl, Nat.le_of_ble_eq_true rfl⟩ (Nat.le_of_ble_eq_true rfl) rfl ⟨Nat.le_of_ble_eq_true rfl, Nat.le_of_ble_eq_true rfl⟩ rfl rfl dX7_sieve_18 (fun k9 st9 hp9 => by subst hp9; exact r_out G X9 (fun _ hx => nomatch hx) (Option.some.inj h).symm (Nat.le_of_ble_eq_true rfl) (Nat.le_of_ble_eq_true rfl)) (fun s4 hp => ?_)
  have hp := hp.symm
  subst hp
  try dsimp only [Sum.elim_inr] at h
  refine r_aload G 2 rfl dX7_sieve_21 ?_
  refine r_callVi G [] (qX2_count hE r1 g2 _) ⟨r1, 2, _, _, rfl, (cw_MS ad κ _ g2), rfl⟩ gX7_sieve_X2_count rfl hdX2_count ⟨Nat.le_of_ble_eq_true rfl, Nat.le_of_ble_eq_true rfl⟩ (Nat.le_of_ble_eq_true rfl) rfl ⟨Nat.le_of_ble_eq_true rfl, Nat.le_of_ble_eq_true rfl⟩ rfl rfl dX7_sieve_23 (fun r5 s5 hp hn5 => ?_)
  obtain ⟨rfl, hs⟩ := hp
  have hs := hs.symm
  subst hs
  refine r_istore G [1, 2, 3, 0] rfl (by decide) dX7_sieve_26 ?_
  refine r_bipush G (v := (-50)) (by decide) dX7_sieve_28 ?_
  refine r_istore G [1, 2, 3, 4, 0] rfl (by decide) dX7_sieve_30 ?_
  refine wX7_sieve_L32 hE hT hfl G _ _ _ g2 _ X9 hret (fun s8 h => ?_) 1100 _ _ h
  · try dsimp only at h
    refine r_iload G 1 rfl dX7_sieve_66 ?_
    refine r_aload G 0 rfl dX7_sieve_68 ?_
    refine r_callVi G [] (qX2_count hE r1 g2 _) ⟨r1, 2, _, _, rfl, (cw_MS ad κ _ g2), rfl⟩ gX7_sieve_X2_count rfl hdX2_count ⟨Nat.le_of_ble_eq_true rfl, Nat.le_of_ble_eq_true rfl⟩ (Nat.le_of_ble_eq_true rfl) rfl ⟨Nat.le_of_ble_eq_true rfl, Nat.le_of_ble_eq_true rfl⟩ rfl rfl dX7_sieve_70 (fun r9 s9 hp hn9 => ?_)
    obtain ⟨rfl, hs⟩ := hp
    have hs := hs.symm
    subst hs
    refine r_isub G dX7_sieve_73 ?_
    exact hret _ _ _ _ _ _ dX7_sieve_74 (Option.some.inj h).symm rfl (Nat.le_of_ble_eq_true rfl) (Nat.le_of_ble_eq_true rfl)
abbrev rmX7_isWithin : Room := { frames := 7, cells := 2, slots := 12, locals := 113 }
set_option maxHeartbeats 4000000 in
set_option maxRecDepth 100000 in
theorem qX7_isWithin {E : evT} {l : Launch} {D : va_G} {ad : Nat → Nat} {κ : Nat → ClassId} (hE : EvOk E) (hT : TOk E) (hfl : l.stackTraces = false) (p0 : Int32) (p1 : Int32) (s : cS) {o : ((Nat × cS) ⊕ (Int32 × cS))} (h : fX7_isWithin p0 p1 s = some o) : Xi l yX7_isWithin wsX7_isWithin rmX7_isWithin (cW ad κ) E D (tyA κ) .boolean [.ref (ad 55), .int p0, .int p1] s (fun r s2 => o = .inr (r, s2)) (fun e s2 => o = .inl (e, s2)) := by
  rw [fX7_isWithin] at h
  refine s_xi (cc := cX7_isWithin) (nL := 4) (own := RX7) hE (cW_WA ad κ) (by decide) rfl rfl (Nat.le_of_ble_eq_true rfl) (fun Γ Qc G X9 hret => ?_)
  refine r_aload_n G 0 rfl rfl dX7_isWithin_0 ?_
  refine r_iload_n G 1 rfl rfl dX7_isWithin_1 ?_
  obtain ⟨o1, e1, h⟩ := ob h
  refine r_callVrx G [.int p0] (qX7_setAt hE hT hfl p0 _ e1) ⟨55, 7, _, _, rfl, (cw_SC ad κ _), rfl⟩ gX7_isWithin_X7_setAt rfl hdX7_setAt ⟨Nat.le_of_ble_eq_true rfl, Nat.le_of_ble_eq_true rfl⟩ (Nat.le_of_ble_eq_true rfl) rfl ⟨Nat.le_of_ble_eq_true rfl, Nat.le_of_ble_eq_true rfl⟩ rfl rfl dX7_isWithin_2 (fun k9 st9 hp9 => by subst hp9; exact r_out G X9 (fun _ hx => nomatch hx) (Option.some.inj h).symm (Nat.le_of_ble_eq_true rfl) (Nat.le_of_ble_eq_true rfl)) (fun r1 s1 hp => ?_)
  subst hp
  try dsimp only [Sum.elim_inr] at h
  obtain ⟨g2, h⟩ := og h
  refine r_astore_n G [1, 3, 0] rfl rfl (by decide) dX7_isWithin_5 ?_
  refine r_aload_n G 0 rfl rfl dX7_isWithin_6 ?_
  refine r_iload_n G 1 rfl rfl dX7_isWithin_7 ?_
  obtain ⟨o3, e3, h⟩ := ob h
  refine r_callVrx G [.int p1] (qX7_setAt hE hT hfl p1 _ e3) ⟨55, 7, _, _, rfl, (cw_SC ad κ _), rfl⟩ gX7_isWithin_X7_setAt rfl hdX7_setAt ⟨Nat.le_of_ble_eq_true rfl, Nat.le_of_ble_eq_true rfl⟩ (Nat.le_of_ble_eq_true rfl) rfl ⟨Nat.le_of_ble_eq_true rfl, Nat.le_of_ble_eq_true rfl⟩ rfl rfl dX7_isWithin_8 (fun k9 st9 hp9 => by subst hp9; exact r_out G X9 (fun _ hx => nomatch hx) (Option.some.inj h).symm (Nat.le_of_ble_eq_true rfl) (Nat.le_of_ble_eq_true rfl)) (fun r3 s3 hp => ?_)
  subst hp
  try dsimp only [Sum.elim_inr] at h
  obtain ⟨g4, h⟩ := og h
  refine r_aload_n G 2 rfl rfl dX7_isWithin_11 ?_
  refine r_callVi G [.ref (ad r1)] (qX2_holdsAll hE r3 g4 r1 g2 _) ⟨r3, 2, _, _, rfl, (cw_MS ad κ _ g4), rfl⟩ gX7_isWithin_X2_holdsAll rfl hdX2_holdsAll ⟨Nat.le_of_ble_eq_true rfl, Nat.le_of_ble_eq_true rfl⟩ (Nat.le_of_ble_eq_true rfl) rfl ⟨Nat.le_of_ble_eq_true rfl, Nat.le_of_ble_eq_true rfl⟩ rfl rfl dX7_isWithin_12 (fun r5 s5 hp hn5 => ?_)
  obtain ⟨rfl, hs⟩ := hp
  have hs := hs.symm
  subst hs
  exact hret _ _ _ _ _ _ dX7_isWithin_15 (Option.some.inj h).symm hn5 (Nat.le_of_ble_eq_true rfl) (Nat.le_of_ble_eq_true rfl)
abbrev rmX7_isApart : Room := { frames := 7, cells := 2, slots := 12, locals := 113 }
theorem hdX2_sharesNone : yX2_sharesNone.cls = RX2 ∧ yX2_sharesNone.cls ≠ "java/lang/invoke/MethodHandle" ∧ yX2_sharesNone.cls ≠ "java/lang/invoke/VarHandle" ∧ (parseMethodDescriptor yX2_sharesNone.desc).map (fun d => d.parameters.length) = some 1 := by decide +kernel
set_option maxHeartbeats 4000000 in
set_option maxRecDepth 100000 in
theorem qX7_isApart {E : evT} {l : Launch} {D : va_G} {ad : Nat → Nat} {κ : Nat → ClassId} (hE : EvOk E) (hT : TOk E) (hfl : l.stackTraces = false) (p0 : Int32) (p1 : Int32) (s : cS) {o : ((Nat × cS) ⊕ (Int32 × cS))} (h : fX7_isApart p0 p1 s = some o) : Xi l yX7_isApart wsX7_isApart rmX7_isApart (cW ad κ) E D (tyA κ) .boolean [.ref (ad 55), .int p0, .int p1] s (fun r s2 => o = .inr (r, s2)) (fun e s2 => o = .inl (e, s2)) := by
  rw [fX7_isApart] at h
  refine s_xi (cc := cX7_isApart) (nL := 4) (own := RX7) hE (cW_WA ad κ) (by decide) rfl rfl (Nat.le_of_ble_eq_true rfl) (fun Γ Qc G X9 hret => ?_)
  refine r_aload_n G 0 rfl rfl dX7_isApart_0 ?_
  refine r_iload_n G 1 rfl rfl dX7_isApart_1 ?_
  obtain ⟨o1, e1, h⟩ := ob h
  refine r_callVrx G [.int p0] (qX7_setAt hE hT hfl p0 _ e1) ⟨55, 7, _, _, rfl, (cw_SC ad κ _), rfl⟩ gX7_isApart_X7_setAt rfl hdX7_setAt ⟨Nat.le_of_ble_eq_true rfl, Nat.le_of_ble_eq_true rfl⟩ (Nat.le_of_ble_eq_true rfl) rfl ⟨Nat.le_of_ble_eq_true rfl, Nat.le_of_ble_eq_true rfl⟩ rfl rfl dX7_isApart_2 (fun k9 st9 hp9 => by subst hp9; exact r_out G X9 (fun _ hx => nomatch hx) (Option.some.inj h).symm (Nat.le_of_ble_eq_true rfl) (Nat.le_of_ble_eq_true rfl)) (fun r1 s1 hp => ?_)
  subst hp
  try dsimp only [Sum.elim_inr] at h
  obtain ⟨g2, h⟩ := og h
  refine r_astore_n G [1, 3, 0] rfl rfl (by decide) dX7_isApart_5 ?_
  refine r_aload_n G 2 rfl rfl dX7_isApart_6 ?_
  refine r_aload_n G 0 rfl rfl dX7_isApart_7 ?_
  refine r_iload_n G 1 rfl rfl dX7_isApart_8 ?_
  obtain ⟨o3, e3, h⟩ := ob h
  refine r_callVrx G [.int p1] (qX7_setAt hE hT hfl p1 _ e3) ⟨55, 7, _, _, rfl, (cw_SC ad κ _), rfl⟩ gX7_isApart_X7_setAt rfl hdX7_setAt ⟨Nat.le_of_ble_eq_true rfl, Nat.le_of_ble_eq_true rfl⟩ (Nat.le_of_ble_eq_true rfl) rfl ⟨Nat.le_of_ble_eq_true rfl, Nat.le_of_ble_eq_true rfl⟩ rfl rfl dX7_isApart_9 (fun k9 st9 hp9 => by subst hp9; exact r_out G X9 (fun _ hx => nomatch hx) (Option.some.inj h).symm (Nat.le_of_ble_eq_true rfl) (Nat.le_of_ble_eq_true rfl)) (fun r3 s3 hp => ?_)
  subst hp
  try dsimp only [Sum.elim_inr] at h
  obtain ⟨g4, h⟩ := og h
  refine r_callVi G [.ref (ad r3)] (qX2_sharesNone hE r1 g2 r3 g4 _) ⟨r1, 2, _, _, rfl, (cw_MS ad κ _ g2), rfl⟩ gX7_isApart_X2_sharesNone rfl hdX2_sharesNone ⟨Nat.le_of_ble_eq_true rfl, Nat.le_of_ble_eq_true rfl⟩ (Nat.le_of_ble_eq_true rfl) rfl ⟨Nat.le_of_ble_eq_true rfl, Nat.le_of_ble_eq_true rfl⟩ rfl rfl dX7_isApart_12 (fun r5 s5 hp hn5 => ?_)
  obtain ⟨rfl, hs⟩ := hp
  have hs := hs.symm
  subst hs
  exact hret _ _ _ _ _ _ dX7_isApart_15 (Option.some.inj h).symm hn5 (Nat.le_of_ble_eq_true rfl) (Nat.le_of_ble_eq_true rfl)
abbrev rmX7_isSame : Room := { frames := 7, cells := 2, slots := 12, locals := 113 }
set_option maxHeartbeats 4000000 in
set_option maxRecDepth 100000 in
theorem qX7_isSame {E : evT} {l : Launch} {D : va_G} {ad : Nat → Nat} {κ : Nat → ClassId} (hE : EvOk E) (hT : TOk E) (hfl : l.stackTraces = false) (p0 : Int32) (p1 : Int32) (s : cS) {o : ((Nat × cS) ⊕ (Int32 × cS))} (h : fX7_isSame p0 p1 s = some o) : Xi l yX7_isSame wsX7_isSame rmX7_isSame (cW ad κ) E D (tyA κ) .boolean [.ref (ad 55), .int p0, .int p1] s (fun r s2 => o = .inr (r, s2)) (fun e s2 => o = .inl (e, s2)) := by
  rw [fX7_isSame] at h
  refine s_xi (cc := cX7_isSame) (nL := 4) (own := RX7) hE (cW_WA ad κ) (by decide) rfl rfl (Nat.le_of_ble_eq_true rfl) (fun Γ Qc G X9 hret => ?_)
  refine r_aload_n G 0 rfl rfl dX7_isSame_0 ?_
  refine r_iload_n G 1 rfl rfl dX7_isSame_1 ?_
  obtain ⟨o1, e1, h⟩ := ob h
  refine r_callVrx G [.int p0] (qX7_setAt hE hT hfl p0 _ e1) ⟨55, 7, _, _, rfl, (cw_SC ad κ _), rfl⟩ gX7_isSame_X7_setAt rfl hdX7_setAt ⟨Nat.le_of_ble_eq_true rfl, Nat.le_of_ble_eq_true rfl⟩ (Nat.le_of_ble_eq_true rfl) rfl ⟨Nat.le_of_ble_eq_true rfl, Nat.le_of_ble_eq_true rfl⟩ rfl rfl dX7_isSame_2 (fun k9 st9 hp9 => by subst hp9; exact r_out G X9 (fun _ hx => nomatch hx) (Option.some.inj h).symm (Nat.le_of_ble_eq_true rfl) (Nat.le_of_ble_eq_true rfl)) (fun r1 s1 hp => ?_)
  subst hp
  try dsimp only [Sum.elim_inr] at h
  obtain ⟨g2, h⟩ := og h
  refine r_astore_n G [1, 3, 0] rfl rfl (by decide) dX7_isSame_5 ?_
  refine r_aload_n G 2 rfl rfl dX7_isSame_6 ?_
  refine r_aload_n G 0 rfl rfl dX7_isSame_7 ?_
  refine r_iload_n G 1 rfl rfl dX7_isSame_8 ?_
  obtain ⟨o3, e3, h⟩ := ob h
  refine r_callVrx G [.int p1] (qX7_setAt hE hT hfl p1 _ e3) ⟨55, 7, _, _, rfl, (cw_SC ad κ _), rfl⟩ gX7_isSame_X7_setAt rfl hdX7_setAt ⟨Nat.le_of_ble_eq_true rfl, Nat.le_of_ble_eq_true rfl⟩ (Nat.le_of_ble_eq_true rfl) rfl ⟨Nat.le_of_ble_eq_true rfl, Nat.le_of_ble_eq_true rfl⟩ rfl rfl dX7_isSame_9 (fun k9 st9 hp9 => by subst hp9; exact r_out G X9 (fun _ hx => nomatch hx) (Option.some.inj h).symm (Nat.le_of_ble_eq_true rfl) (Nat.le_of_ble_eq_true rfl)) (fun r3 s3 hp => ?_)
  subst hp
  try dsimp only [Sum.elim_inr] at h
  obtain ⟨g4, h⟩ := og h
  refine r_callVi G [.ref (ad r3)] (qX2_sameAs hE r1 g2 r3 g4 _) ⟨r1, 2, _, _, rfl, (cw_MS ad κ _ g2), rfl⟩ gX7_isSame_X2_sameAs rfl hdX2_sameAs ⟨Nat.le_of_ble_eq_true rfl, Nat.le_of_ble_eq_true rfl⟩ (Nat.le_of_ble_eq_true rfl) rfl ⟨Nat.le_of_ble_eq_true rfl, Nat.le_of_ble_eq_true rfl⟩ rfl rfl dX7_isSame_12 (fun r5 s5 hp hn5 => ?_)
  obtain ⟨rfl, hs⟩ := hp
  have hs := hs.symm
  subst hs
  exact hret _ _ _ _ _ _ dX7_isSame_15 (Option.some.inj h).symm hn5 (Nat.le_of_ble_eq_true rfl) (Nat.le_of_ble_eq_true rfl)
abbrev rmX7_votesFor : Room := { frames := 1, cells := 0, slots := 0, locals := 23 }
set_option maxRecDepth 20000 in
theorem kX7_votesFor_X7 : ∀ w ∈ u_ws RX7 TX7 8, w ∈ wsX7_votesFor := by decide +kernel
set_option maxRecDepth 20000 in
theorem mX7_votesFor_f11 : Cond.fieldLink RX7 11 "SetCouncil" "sets" "[LSetCouncil$MemberSet;" ∈ wsX7_votesFor := by decide +kernel
set_option maxHeartbeats 4000000 in
set_option maxRecDepth 100000 in
theorem wX7_votesFor_L4 {E : evT} {l : Launch} {D : va_G} {ad : Nat → Nat} {κ : Nat → ClassId} (hE : EvOk E) {Γ : cxT} (G : Cx (cW ad κ) D (tyA κ) E l Γ cX7_votesFor RX7 wsX7_votesFor 4 rmX7_votesFor) (x1 : Int32) {o : (Int32 × cS)} (hret : ∀ (st2 : cS) (v : Int32) (cells slots pc : Nat) (lv : List (Nat × Value)), decode cX7_votesFor pc = .ok (.ireturn, 1) → o = (v, st2) → narrow .int (.int v) = .int v → cells ≤ rmX7_votesFor.cells → slots ≤ rmX7_votesFor.slots → V (cW ad κ) D Γ st2 cells slots pc lv [.int v]) : ∀ (fuel : Nat) (x2 : Int32) (x3 : Int32) (s : cS), fX7_votesFor_L4 x1 fuel x2 x3 s = some o → V (cW ad κ) D Γ s 0 0 4 [(0, .ref (ad 55)), (1, .int x1), (2, .int x2), (3, .int x3)] [] := by
  intro fuel
  induction fuel with
  | zero =>
    intro _ _ _ h
    have h : none = some o := h
    cases h
  | succ fuel ih =>
    intro x2 x3 s h
    rw [fX7_votesFor_L4] at h
    refine r_iload_n G 3 rfl rfl dX7_votesFor_4 ?_
    refine r_aload_n G 0 rfl rfl dX7_votesFor_5 ?_
    refine r_get G (C := RX7) (T := TX7) (N := 8) kX7_votesFor_X7 55 (cw_SC ad κ _) rfl 0 (by decide) mX7_votesFor_f11 rfl rfl dX7_votesFor_6 ?_
    refine r_alen G 56 0 (cw_SETS ad κ _) rfl (v := 8) rfl dX7_votesFor_9 ?_
    refine r_icmp_ge G (tgt := 35) dX7_votesFor_10 (by decide) (fun c => ?_) (fun c => ?_)
    · rw [if_pos c] at h
      refine r_iload_n G 2 rfl rfl dX7_votesFor_35 ?_
      exact hret _ _ _ _ _ _ dX7_votesFor_36 (Option.some.inj h).symm rfl (Nat.le_of_ble_eq_true rfl) (Nat.le_of_ble_eq_true rfl)
    · rw [if_neg c] at h
      refine r_aload_n G 0 rfl rfl dX7_votesFor_13 ?_
      refine r_get G (C := RX7) (T := TX7) (N := 8) kX7_votesFor_X7 55 (cw_SC ad κ _) rfl 0 (by decide) mX7_votesFor_f11 rfl rfl dX7_votesFor_14 ?_
      refine r_iload_n G 3 rfl rfl dX7_votesFor_17 ?_
      obtain ⟨g1, h⟩ := og h
      refine r_aldq G 56 0 (cw_SETS ad κ _) rfl (vin_in g1) rfl dX7_votesFor_18 ?_
      refine r_iload_n G 1 rfl rfl dX7_votesFor_19 ?_
      refine r_callVi G [.int x1] (qX2_holds hE x3.toNatClampNeg (by have := vin_lt g1; omega) x1 _) ⟨x3.toNatClampNeg, 2, _, _, rfl, (cw_MS ad κ _ (by have := vin_lt g1; omega)), rfl⟩ gX7_votesFor_X2_holds rfl hdX2_holds ⟨Nat.le_of_ble_eq_true rfl, Nat.le_of_ble_eq_true rfl⟩ (Nat.le_of_ble_eq_true rfl) rfl ⟨Nat.le_of_ble_eq_true rfl, Nat.le_of_ble_eq_true rfl⟩ rfl rfl dX7_votesFor_20 (fun r2 s2 hp hn2 => ?_)
      obtain ⟨rfl, hs⟩ := hp
      have hs := hs.symm
      subst hs
      refine r_if_eq G (tgt := 29) dX7_votesFor_23 (by decide) (fun c => ?_) (fun c => ?_)
      · rw [if_pos c] at h
        refine r_iinc G (j := 3) rfl (v := x3 + 1) rfl [1, 2, 3, 0] rfl (by decide) dX7_votesFor_29 ?_
        refine r_goto G (tgt := 4) dX7_votesFor_32 (by decide) ?_
        exact ih _ _ _ h
      · rw [if_neg c] at h
        refine r_iinc G (j := 2) rfl (v := x2 + 1) rfl [1, 2, 0, 3] rfl (by decide) dX7_votesFor_26 ?_
        refine r_iinc G (j := 3) rfl (v := x3 + 1) rfl [1, 2, 3, 0] rfl (by decide) dX7_votesFor_29 ?_
        refine r_goto G (tgt := 4) dX7_votesFor_32 (by decide) ?_
        exact ih _ _ _ h
set_option maxHeartbeats 4000000 in
set_option maxRecDepth 100000 in
theorem qX7_votesFor {E : evT} {l : Launch} {D : va_G} {ad : Nat → Nat} {κ : Nat → ClassId} (hE : EvOk E) (p0 : Int32) (s : cS) {o : (Int32 × cS)} (h : fX7_votesFor p0 s = some o) : Ci l yX7_votesFor wsX7_votesFor rmX7_votesFor (cW ad κ) E D (tyA κ) .int [.ref (ad 55), .int p0] s (fun r s2 => o = (r, s2)) := by
  rw [fX7_votesFor] at h
  refine s_i (cc := cX7_votesFor) (nL := 4) (own := RX7) hE (cW_WA ad κ) (plainFor_of_name (by decide)) rfl rfl (Nat.le_of_ble_eq_true rfl) (fun Γ G hret => ?_)
  refine r_iconst G (v := 0) (by decide) dX7_votesFor_0 ?_
  refine r_istore_n G [1, 2, 0] rfl rfl (by decide) dX7_votesFor_1 ?_
  refine r_iconst G (v := 0) (by decide) dX7_votesFor_2 ?_
  refine r_istore_n G [1, 2, 3, 0] rfl rfl (by decide) dX7_votesFor_3 ?_
  refine wX7_votesFor_L4 hE G _ hret 1100 _ _ _ h
abbrev rmX7_vote : Room := { frames := 7, cells := 1, slots := 6, locals := 112 }
theorem hdX7_votesFor : yX7_votesFor.cls = RX7 ∧ yX7_votesFor.cls ≠ "java/lang/invoke/MethodHandle" ∧ yX7_votesFor.cls ≠ "java/lang/invoke/VarHandle" ∧ (parseMethodDescriptor yX7_votesFor.desc).map (fun d => d.parameters.length) = some 1 := by decide +kernel
set_option maxHeartbeats 4000000 in
set_option maxRecDepth 100000 in
theorem qX7_vote {E : evT} {l : Launch} {D : va_G} {ad : Nat → Nat} {κ : Nat → ClassId} (hE : EvOk E) (hT : TOk E) (hfl : l.stackTraces = false) (p0 : Int32) (s : cS) {o : ((Nat × cS) ⊕ (Int32 × cS))} (h : fX7_vote p0 s = some o) : Xi l yX7_vote wsX7_vote rmX7_vote (cW ad κ) E D (tyA κ) .int [.ref (ad 55), .int p0] s (fun r s2 => o = .inr (r, s2)) (fun e s2 => o = .inl (e, s2)) := by
  rw [fX7_vote] at h
  refine s_xi (cc := cX7_vote) (nL := 2) (own := RX7) hE (cW_WA ad κ) (by decide) rfl rfl (Nat.le_of_ble_eq_true rfl) (fun Γ Qc G X9 hret => ?_)
  refine r_aload_n G 0 rfl rfl dX7_vote_0 ?_
  refine r_iload_n G 1 rfl rfl dX7_vote_1 ?_
  obtain ⟨o1, e1, h⟩ := ob h
  refine r_callSix G [.int p0] (qX7_indexOfMember hE hT hfl p0 _ e1) gX7_vote_X7_indexOfMember rfl hdX7_indexOfMember ⟨Nat.le_of_ble_eq_true rfl, Nat.le_of_ble_eq_true rfl⟩ (Nat.le_of_ble_eq_true rfl) rfl ⟨Nat.le_of_ble_eq_true rfl, Nat.le_of_ble_eq_true rfl⟩ rfl rfl dX7_vote_2 (fun k9 st9 hp9 => by subst hp9; exact r_out G X9 (fun _ hx => nomatch hx) (Option.some.inj h).symm (Nat.le_of_ble_eq_true rfl) (Nat.le_of_ble_eq_true rfl)) (fun r1 s1 hp hn1 => ?_)
  subst hp
  try dsimp only [Sum.elim_inr] at h
  obtain ⟨o2, e2, h⟩ := ob h
  refine r_callVi G [.int r1] (qX7_votesFor hE r1 _ e2) ⟨55, 7, _, _, rfl, (cw_SC ad κ _), rfl⟩ gX7_vote_X7_votesFor rfl hdX7_votesFor ⟨Nat.le_of_ble_eq_true rfl, Nat.le_of_ble_eq_true rfl⟩ (Nat.le_of_ble_eq_true rfl) rfl ⟨Nat.le_of_ble_eq_true rfl, Nat.le_of_ble_eq_true rfl⟩ rfl rfl dX7_vote_5 (fun r2 s2 hp hn2 => ?_)
  subst hp
  try dsimp only at h
  exact hret _ _ _ _ _ _ dX7_vote_8 (Option.some.inj h).symm rfl (Nat.le_of_ble_eq_true rfl) (Nat.le_of_ble_eq_true rfl)
abbrev rmX7_elect : Room := { frames := 7, cells := 2, slots := 12, locals := 114 }
set_option maxRecDepth 20000 in
theorem kX7_elect_X7 : ∀ w ∈ u_ws RX7 TX7 8, w ∈ wsX7_elect := by decide +kernel
set_option maxRecDepth 20000 in
theorem mX7_elect_f35 : Cond.fieldLink RX7 35 "SetCouncil" "spare" "LSetCouncil$MemberSet;" ∈ wsX7_elect := by decide +kernel
set_option maxHeartbeats 4000000 in
set_option maxRecDepth 100000 in
theorem wX7_elect_L23 {E : evT} {l : Launch} {D : va_G} {ad : Nat → Nat} {κ : Nat → ClassId} (hE : EvOk E) (hT : TOk E) (hfl : l.stackTraces = false) {Γ : cxT} {Qc : Array Value → State → Outcome → State → Prop} (G : Cx (cW ad κ) D (tyA κ) E l Γ cX7_elect RX7 wsX7_elect 5 rmX7_elect) (x2 : Int32) (z3 : Nat) (hz3 : z3 < 55) {o : ((Nat × cS) ⊕ (Int32 × cS))} (X9 : Tx (cW ad κ) D Γ rmX7_elect (fun e st2 => o = .inl (e, st2)) Qc []) (hret : ∀ (st2 : cS) (v : Int32) (cells slots pc : Nat) (lv : List (Nat × Value)), decode cX7_elect pc = .ok (.ireturn, 1) → o = .inr (v, st2) → narrow .int (.int v) = .int v → cells ≤ rmX7_elect.cells → slots ≤ rmX7_elect.slots → V (cW ad κ) D Γ st2 cells slots pc lv [.int v]) {k0 : cS → Option ((Nat × cS) ⊕ (Int32 × cS))} (hk0 : ∀ (s : cS), k0 s = some o → V (cW ad κ) D Γ s 2 12 56 [(0, .ref (ad 55)), (3, .ref (ad z3))] []) : ∀ (fuel : Nat) (x4 : Int32) (s : cS), fX7_elect_L23 x2 z3 k0 fuel x4 s = some o → V (cW ad κ) D Γ s 2 12 23 [(0, .ref (ad 55)), (2, .int x2), (3, .ref (ad z3)), (4, .int x4)] [] := by
  intro fuel
  induction fuel with
  | zero =>
    intro _ _ h
    have h : none = some o := h
    cases h
  | succ fuel ih =>
    intro x4 s h
    rw [fX7_elect_L23] at h
    refine r_iload G 3 rfl dX7_elect_23 ?_
    refine r_bipush G (v := 102) (by decide) dX7_elect_25 ?_
    refine r_icmp_ge G (tgt := 56) dX7_elect_27 (by decide) (fun c => ?_) (fun c => ?_)
    · rw [if_pos c] at h
      refine V.sub [0, 2] rfl ?_
      exact hk0 _ h
    · rw [if_neg c] at h
      refine r_aload_n G 0 rfl rfl dX7_elect_30 ?_
      refine r_iload G 3 rfl dX7_elect_31 ?_
      obtain ⟨o5, e5, h⟩ := ob h
      refine r_callVi G [.int x4] (qX7_votesFor hE x4 _ e5) ⟨55, 7, _, _, rfl, (cw_SC ad κ _), rfl⟩ gX7_elect_X7_votesFor rfl hdX7_votesFor ⟨Nat.le_of_ble_eq_true rfl, Nat.le_of_ble_eq_true rfl⟩ (Nat.le_of_ble_eq_true rfl) rfl ⟨Nat.le_of_ble_eq_true rfl, Nat.le_of_ble_eq_true rfl⟩ rfl rfl dX7_elect_33 (fun r5 s5 hp hn5 => ?_)
      subst hp
      try dsimp only at h
      refine r_iload_n G 1 rfl rfl dX7_elect_36 ?_
      refine r_icmp_lt G (tgt := 50) dX7_elect_37 (by decide) (fun c => ?_) (fun c => ?_)
      · rw [if_pos c] at h
        refine r_iinc G (j := 3) rfl (v := x4 + 1) rfl [1, 2, 3, 0] rfl (by decide) dX7_elect_50 ?_
        refine r_goto G (tgt := 23) dX7_elect_53 (by decide) ?_
        exact ih _ _ h
      · rw [if_neg c] at h
        refine r_aload_n G 0 rfl rfl dX7_elect_40 ?_
        refine r_get G (C := RX7) (T := TX7) (N := 8) kX7_elect_X7 55 (cw_SC ad κ _) rfl 4 (by decide) mX7_elect_f35 rfl rfl dX7_elect_41 ?_
        refine r_iload G 3 rfl dX7_elect_44 ?_
        obtain ⟨o6, e6, h⟩ := ob h
        refine r_callVi G [.int x4] (qX2_put hE 24 (by decide) x4 _ e6) ⟨24, 2, _, _, rfl, (cw_MS ad κ _ (by decide)), rfl⟩ gX7_elect_X2_put rfl hdX2_put ⟨Nat.le_of_ble_eq_true rfl, Nat.le_of_ble_eq_true rfl⟩ (Nat.le_of_ble_eq_true rfl) rfl ⟨Nat.le_of_ble_eq_true rfl, Nat.le_of_ble_eq_true rfl⟩ rfl rfl dX7_elect_46 (fun r6 s6 hp hn6 => ?_)
        subst hp
        try dsimp only at h
        refine r_pop G rfl dX7_elect_49 ?_
        refine r_iinc G (j := 3) rfl (v := x4 + 1) rfl [1, 2, 3, 0] rfl (by decide) dX7_elect_50 ?_
        refine r_goto G (tgt := 23) dX7_elect_53 (by decide) ?_
        exact ih _ _ h
set_option maxHeartbeats 4000000 in
set_option maxRecDepth 100000 in
theorem qX7_elect {E : evT} {l : Launch} {D : va_G} {ad : Nat → Nat} {κ : Nat → ClassId} (hE : EvOk E) (hT : TOk E) (hfl : l.stackTraces = false) (p0 : Int32) (p1 : Int32) (s : cS) {o : ((Nat × cS) ⊕ (Int32 × cS))} (h : fX7_elect p0 p1 s = some o) : Xi l yX7_elect wsX7_elect rmX7_elect (cW ad κ) E D (tyA κ) .int [.ref (ad 55), .int p0, .int p1] s (fun r s2 => o = .inr (r, s2)) (fun e s2 => o = .inl (e, s2)) := by
  rw [fX7_elect] at h
  refine s_xi (cc := cX7_elect) (nL := 5) (own := RX7) hE (cW_WA ad κ) (by decide) rfl rfl (Nat.le_of_ble_eq_true rfl) (fun Γ Qc G X9 hret => ?_)
  refine r_aload_n G 0 rfl rfl dX7_elect_0 ?_
  refine r_iload_n G 1 rfl rfl dX7_elect_1 ?_
  obtain ⟨o1, e1, h⟩ := ob h
  refine r_callVrx G [.int p0] (qX7_setAt hE hT hfl p0 _ e1) ⟨55, 7, _, _, rfl, (cw_SC ad κ _), rfl⟩ gX7_elect_X7_setAt rfl hdX7_setAt ⟨Nat.le_of_ble_eq_true rfl, Nat.le_of_ble_eq_true rfl⟩ (Nat.le_of_ble_eq_true rfl) rfl ⟨Nat.le_of_ble_eq_true rfl, Nat.le_of_ble_eq_true rfl⟩ rfl rfl dX7_elect_2 (fun k9 st9 hp9 => by subst hp9; exact r_out G X9 (fun _ hx => nomatch hx) (Option.some.inj h).symm (Nat.le_of_ble_eq_true rfl) (Nat.le_of_ble_eq_true rfl)) (fun r1 s1 hp => ?_)
  subst hp
  try dsimp only [Sum.elim_inr] at h
  obtain ⟨g2, h⟩ := og h
  refine r_astore_n G [1, 3, 0] rfl rfl (by decide) dX7_elect_5 ?_
  refine r_iload_n G 1 rfl rfl dX7_elect_6 ?_
  refine r_iconst G (v := 1) (by decide) dX7_elect_7 ?_
  refine r_bipush G (v := 8) (by decide) dX7_elect_8 ?_
  obtain ⟨o3, e3, h⟩ := ob h
  refine r_callSvx G [.int p1, .int 1, .int 8] (qX7_checkRange hE hT hfl p1 (1 : Int32) (8 : Int32) _ e3) gX7_elect_X7_checkRange rfl hdX7_checkRange ⟨Nat.le_of_ble_eq_true rfl, Nat.le_of_ble_eq_true rfl⟩ (Nat.le_of_ble_eq_true rfl) rfl ⟨Nat.le_of_ble_eq_true rfl, Nat.le_of_ble_eq_true rfl⟩ rfl rfl dX7_elect_10 (fun k9 st9 hp9 => by subst hp9; exact r_out G X9 (fun _ hx => nomatch hx) (Option.some.inj h).symm (Nat.le_of_ble_eq_true rfl) (Nat.le_of_ble_eq_true rfl)) (fun s3 hp => ?_)
  have hp := hp.symm
  subst hp
  try dsimp only [Sum.elim_inr] at h
  refine r_aload_n G 0 rfl rfl dX7_elect_13 ?_
  refine r_get G (C := RX7) (T := TX7) (N := 8) kX7_elect_X7 55 (cw_SC ad κ _) rfl 4 (by decide) mX7_elect_f35 rfl rfl dX7_elect_14 ?_
  obtain ⟨o4, e4, h⟩ := ob h
  refine r_callVv G [] (qX2_empty hE 24 (by decide) _ e4) ⟨24, 2, _, _, rfl, (cw_MS ad κ _ (by decide)), rfl⟩ gX7_elect_X2_empty rfl hdX2_empty ⟨Nat.le_of_ble_eq_true rfl, Nat.le_of_ble_eq_true rfl⟩ (Nat.le_of_ble_eq_true rfl) rfl ⟨Nat.le_of_ble_eq_true rfl, Nat.le_of_ble_eq_true rfl⟩ rfl rfl dX7_elect_17 (fun s4 hp => ?_)
  have hp := hp.symm
  subst hp
  try dsimp only at h
  refine r_iconst G (v := 0) (by decide) dX7_elect_20 ?_
  refine r_istore G [1, 2, 3, 0] rfl (by decide) dX7_elect_21 ?_
  refine wX7_elect_L23 hE hT hfl G _ _ g2 X9 hret (fun s7 h => ?_) 1100 _ _ h
  · try dsimp only at h
    refine r_aload_n G 1 rfl rfl dX7_elect_56 ?_
    refine r_aload_n G 0 rfl rfl dX7_elect_57 ?_
    refine r_get G (C := RX7) (T := TX7) (N := 8) kX7_elect_X7 55 (cw_SC ad κ _) rfl 4 (by decide) mX7_elect_f35 rfl rfl dX7_elect_58 ?_
    obtain ⟨o8, e8, h⟩ := ob h
    refine r_callVv G [.ref (ad 24)] (qX2_become hE r1 g2 24 (by decide) _ e8) ⟨r1, 2, _, _, rfl, (cw_MS ad κ _ g2), rfl⟩ gX7_elect_X2_become rfl hdX2_become ⟨Nat.le_of_ble_eq_true rfl, Nat.le_of_ble_eq_true rfl⟩ (Nat.le_of_ble_eq_true rfl) rfl ⟨Nat.le_of_ble_eq_true rfl, Nat.le_of_ble_eq_true rfl⟩ rfl rfl dX7_elect_61 (fun s8 hp => ?_)
    have hp := hp.symm
    subst hp
    try dsimp only at h
    refine r_aload_n G 1 rfl rfl dX7_elect_64 ?_
    refine r_callVi G [] (qX2_count hE r1 g2 _) ⟨r1, 2, _, _, rfl, (cw_MS ad κ _ g2), rfl⟩ gX7_elect_X2_count rfl hdX2_count ⟨Nat.le_of_ble_eq_true rfl, Nat.le_of_ble_eq_true rfl⟩ (Nat.le_of_ble_eq_true rfl) rfl ⟨Nat.le_of_ble_eq_true rfl, Nat.le_of_ble_eq_true rfl⟩ rfl rfl dX7_elect_65 (fun r9 s9 hp hn9 => ?_)
    obtain ⟨rfl, hs⟩ := hp
    have hs := hs.symm
    subst hs
    exact hret _ _ _ _ _ _ dX7_elect_68 (Option.some.inj h).symm rfl (Nat.le_of_ble_eq_true rfl) (Nat.le_of_ble_eq_true rfl)
abbrev rmX7_keep : Room := { frames := 7, cells := 2, slots := 12, locals := 113 }
set_option maxRecDepth 20000 in
theorem kX7_keep_X7 : ∀ w ∈ u_ws RX7 TX7 8, w ∈ wsX7_keep := by decide +kernel
set_option maxRecDepth 20000 in
theorem mX7_keep_f28 : Cond.fieldLink RX7 28 "SetCouncil" "family" "LSetCouncil$Family;" ∈ wsX7_keep := by decide +kernel
set_option maxRecDepth 20000 in
theorem mX7_keep_k152 : Cond.classLink RX7 152 "java/lang/IllegalStateException" ∈ wsX7_keep := by decide +kernel
set_option maxRecDepth 20000 in
theorem mX7_keep_i4 : Cond.initialized "java/lang/IllegalStateException" ∈ wsX7_keep := by decide +kernel
set_option maxRecDepth 20000 in
theorem tX7_keep_156 : ∀ w ∈ (vx_atS RX7 156 "java/lang/IllegalStateException" ["java/lang/RuntimeException", "java/lang/Exception"]).filter goodWord, w ∈ wsX7_keep := by decide +kernel
theorem oX7_156 : ∀ w ∈ (vx_atS RX7 156 "java/lang/IllegalStateException" ["java/lang/RuntimeException", "java/lang/Exception"]), vx_ot w = true := by decide +kernel
theorem bX7_156 : ∀ w ∈ (vx_atS RX7 156 "java/lang/IllegalStateException" ["java/lang/RuntimeException", "java/lang/Exception"]).filter (fun w => !goodWord w), w ∈ thB := by decide +kernel
theorem sX7_154 : (RX7, 154, "the family is full") ∈ thS := by decide +kernel
set_option maxHeartbeats 4000000 in
set_option maxRecDepth 100000 in
theorem qX7_keep {E : evT} {l : Launch} {D : va_G} {ad : Nat → Nat} {κ : Nat → ClassId} (hE : EvOk E) (hT : TOk E) (hfl : l.stackTraces = false) (p0 : Int32) (s : cS) {o : ((Nat × cS) ⊕ (Int32 × cS))} (h : fX7_keep p0 s = some o) : Xi l yX7_keep wsX7_keep rmX7_keep (cW ad κ) E D (tyA κ) .boolean [.ref (ad 55), .int p0] s (fun r s2 => o = .inr (r, s2)) (fun e s2 => o = .inl (e, s2)) := by
  rw [fX7_keep] at h
  refine s_xi (cc := cX7_keep) (nL := 3) (own := RX7) hE (cW_WA ad κ) (by decide) rfl rfl (Nat.le_of_ble_eq_true rfl) (fun Γ Qc G X9 hret => ?_)
  refine r_aload_n G 0 rfl rfl dX7_keep_0 ?_
  refine r_iload_n G 1 rfl rfl dX7_keep_1 ?_
  obtain ⟨o1, e1, h⟩ := ob h
  refine r_callVrx G [.int p0] (qX7_setAt hE hT hfl p0 _ e1) ⟨55, 7, _, _, rfl, (cw_SC ad κ _), rfl⟩ gX7_keep_X7_setAt rfl hdX7_setAt ⟨Nat.le_of_ble_eq_true rfl, Nat.le_of_ble_eq_true rfl⟩ (Nat.le_of_ble_eq_true rfl) rfl ⟨Nat.le_of_ble_eq_true rfl, Nat.le_of_ble_eq_true rfl⟩ rfl rfl dX7_keep_2 (fun k9 st9 hp9 => by subst hp9; exact r_out G X9 (fun _ hx => nomatch hx) (Option.some.inj h).symm (Nat.le_of_ble_eq_true rfl) (Nat.le_of_ble_eq_true rfl)) (fun r1 s1 hp => ?_)
  subst hp
  try dsimp only [Sum.elim_inr] at h
  obtain ⟨g2, h⟩ := og h
  refine r_astore_n G [1, 0] rfl rfl (by decide) dX7_keep_5 ?_
  refine r_aload_n G 0 rfl rfl dX7_keep_6 ?_
  refine r_get G (C := RX7) (T := TX7) (N := 8) kX7_keep_X7 55 (cw_SC ad κ _) rfl 2 (by decide) mX7_keep_f28 rfl rfl dX7_keep_7 ?_
  refine r_aload_n G 1 rfl rfl dX7_keep_10 ?_
  obtain ⟨o3, e3, h⟩ := ob h
  refine r_callVi G [.ref (ad r1)] (qX0_find hE 0 (by decide) r1 g2 _ e3) ⟨(66 + 0), 0, _, _, rfl, (cw_FAM ad κ _ (by decide)), rfl⟩ gX7_keep_X0_find rfl hdX0_find ⟨Nat.le_of_ble_eq_true rfl, Nat.le_of_ble_eq_true rfl⟩ (Nat.le_of_ble_eq_true rfl) rfl ⟨Nat.le_of_ble_eq_true rfl, Nat.le_of_ble_eq_true rfl⟩ rfl rfl dX7_keep_11 (fun r3 s3 hp hn3 => ?_)
  subst hp
  try dsimp only at h
  refine r_iconst G (v := (-1)) (by decide) dX7_keep_14 ?_
  refine r_icmp_eq G (tgt := 20) dX7_keep_15 (by decide) (fun c => ?_) (fun c => ?_)
  · rw [if_pos c] at h
    refine r_aload_n G 0 rfl rfl dX7_keep_20 ?_
    refine r_get G (C := RX7) (T := TX7) (N := 8) kX7_keep_X7 55 (cw_SC ad κ _) rfl 2 (by decide) mX7_keep_f28 rfl rfl dX7_keep_21 ?_
    refine r_aload_n G 1 rfl rfl dX7_keep_24 ?_
    obtain ⟨o4, e4, h⟩ := ob h
    refine r_callVi G [.ref (ad r1)] (qX0_enter hE 0 (by decide) r1 g2 _ e4) ⟨(66 + 0), 0, _, _, rfl, (cw_FAM ad κ _ (by decide)), rfl⟩ gX7_keep_X0_enter rfl hdX0_enter ⟨Nat.le_of_ble_eq_true rfl, Nat.le_of_ble_eq_true rfl⟩ (Nat.le_of_ble_eq_true rfl) rfl ⟨Nat.le_of_ble_eq_true rfl, Nat.le_of_ble_eq_true rfl⟩ rfl rfl dX7_keep_25 (fun r4 s4 hp hn4 => ?_)
    subst hp
    try dsimp only at h
    refine r_if_ne G (tgt := 41) dX7_keep_28 (by decide) (fun c => ?_) (fun c => ?_)
    · rw [if_neg c] at h
      refine r_iconst G (v := 1) (by decide) dX7_keep_41 ?_
      exact hret _ _ _ _ _ _ dX7_keep_42 (Option.some.inj h).symm rfl (Nat.le_of_ble_eq_true rfl) (Nat.le_of_ble_eq_true rfl)
    · rw [if_pos c] at h
      exact r_throw G X9 hT hfl (k := 4) (by decide) mX7_keep_k152 mX7_keep_i4 tX7_keep_156 oX7_156 bX7_156 sX7_154 dX7_keep_31 dX7_keep_34 dX7_keep_35 dX7_keep_37 dX7_keep_40 (Option.some.inj h).symm (Nat.le_of_ble_eq_true rfl) (Nat.le_of_ble_eq_true rfl) (Nat.le_of_ble_eq_true rfl) (Nat.le_of_ble_eq_true rfl)
  · rw [if_neg c] at h
    refine r_iconst G (v := 0) (by decide) dX7_keep_18 ?_
    exact hret _ _ _ _ _ _ dX7_keep_19 (Option.some.inj h).symm rfl (Nat.le_of_ble_eq_true rfl) (Nat.le_of_ble_eq_true rfl)
