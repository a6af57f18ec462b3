abbrev rmL_take : Room := rmLw
theorem hdX7_take : yX7_take.cls = RX7 ∧ yX7_take.cls ≠ "java/lang/invoke/MethodHandle" ∧ yX7_take.cls ≠ "java/lang/invoke/VarHandle" ∧ (parseMethodDescriptor yX7_take.desc).map (fun d => d.parameters.length) = some 2 := by decide +kernel
set_option maxRecDepth 20000 in
theorem mL_take_k13 : Cond.classLink RL 13 "java/lang/IndexOutOfBoundsException" ∈ wsL_take := by decide +kernel
set_option maxHeartbeats 4000000 in
set_option maxRecDepth 100000 in
theorem qL_take {E : evT} {l : Launch} {D : va_G} {ad bd : Nat → Nat} {qo : Nat} {κ : Nat → ClassId} (hE : EvOk E) (hT : TOk E) (hfl : l.stackTraces = false) (hC : COk E) (p1 : Int32) (p2 : Int32) (s : lS) {o : ((Nat × lS) ⊕ (Int32 × lS))} (h : fL_take p1 p2 s = some o) : Xi l yL_take wsL_take rmL_take (lW ad bd κ qo) E D (tyA κ) .int [.ref (ad 55), .int p1, .int p2, .ref qo] s (fun r s2 => o = .inr (r, s2)) (fun e s2 => o = .inl (e, s2)) := by
  rw [fL_take] at h
  refine s_xiH (hh := [(0, 10, 13, 13), (0, 10, 17, 41)]) (cc := cL_take) (nL := 5) (own := RL) hE (lW_WA ad bd κ qo) (by decide) rfl rfl (Nat.le_of_ble_eq_true rfl) (fun Γ Qc G X9 hret => ?_)
  refine r_aload_n G 3 rfl rfl dL_take_0 ?_
  refine r_iconst G (v := 0) (by decide) dL_take_1 ?_
  refine r_aload_n G 0 rfl rfl dL_take_2 ?_
  refine r_iload_n G 1 rfl rfl dL_take_3 ?_
  refine r_iload_n G 2 rfl rfl dL_take_4 ?_
  obtain ⟨o1, e1, h⟩ := ob h
  refine e_callVix G (fun x9 : cS => (x9, s.2.1, s.2.2)) (fun x9 => lW_c ad bd κ qo x9 _ _) rfl [.int p1, .int p2] (qX7_take hE hT hfl p1 p2 _ e1) ⟨55, 7, _, _, rfl, (lw_SC ad bd κ qo _), rfl⟩ gL_take_X7_take rfl hdX7_take ⟨Nat.le_of_ble_eq_true rfl, Nat.le_of_ble_eq_true rfl⟩ (Nat.le_of_ble_eq_true rfl) rfl ⟨Nat.le_of_ble_eq_true rfl, Nat.le_of_ble_eq_true rfl⟩ rfl rfl dL_take_5 (fun k9 st9 hp9 => ?_) (fun r1 s1 hp hn1 => ?_)
  · subst hp9
    try dsimp only [Sum.elim_inl] at h
    by_cases c9 : k9 = 1
    · subst c9
      rw [if_pos rfl] at h
      refine r_catch G [] ⟨0, 10, 13, 13⟩ [⟨0, 10, 17, 41⟩] (by rw [X9.2.1]; rfl) (fun _ hz => nomatch hz) (by decide) (by decide) mL_take_k13 ((hC _ _ _ G.ev).c1) (fun q => ?_)
      refine r_astore G (lv' := []) [] rfl (by decide) dL_take_13 ?_
      refine r_iconst G (v := 1) (by decide) dL_take_15 ?_
      exact hret _ _ _ _ _ _ dL_take_16 (Option.some.inj h).symm rfl (Nat.le_of_ble_eq_true rfl) (Nat.le_of_ble_eq_true rfl)
    · rw [if_neg c9] at h
      by_cases c9 : k9 = 3
      · subst c9
        rw [if_pos rfl] at h
        refine r_catchL G [⟨0, 10, 13, 13⟩] ⟨0, 10, 17, 41⟩ [] (by rw [X9.2.1]; rfl) (fun z hz => by have hz := List.mem_singleton.mp hz; subst hz; exact Or.inr ⟨by decide, _, mL_take_k13, (hC _ _ _ G.ev).n31⟩) (by decide) (by decide) ((hC _ _ _ G.ev).l41) ((hC _ _ _ G.ev).c3) (fun q => ?_)
        refine r_astore G (lv' := []) [] rfl (by decide) dL_take_17 ?_
        refine r_iconst G (v := 2) (by decide) dL_take_19 ?_
        exact hret _ _ _ _ _ _ dL_take_20 (Option.some.inj h).symm rfl (Nat.le_of_ble_eq_true rfl) (Nat.le_of_ble_eq_true rfl)
      · rw [if_neg c9] at h
        cases h
  subst hp
  try dsimp only [Sum.elim_inr] at h
  refine r_i2l G dL_take_8 ?_
  refine r_outst G dL_take_9 ?_
  refine r_goto G (tgt := 21) dL_take_10 (by decide) ?_
  refine r_iconst G (v := 0) (by decide) dL_take_21 ?_
  exact hret _ _ _ _ _ _ dL_take_22 (Option.some.inj h).symm rfl (Nat.le_of_ble_eq_true rfl) (Nat.le_of_ble_eq_true rfl)

abbrev rmL_spread : Room := rmLw
theorem hdX7_spread : yX7_spread.cls = RX7 ∧ yX7_spread.cls ≠ "java/lang/invoke/MethodHandle" ∧ yX7_spread.cls ≠ "java/lang/invoke/VarHandle" ∧ (parseMethodDescriptor yX7_spread.desc).map (fun d => d.parameters.length) = some 1 := by decide +kernel
set_option maxRecDepth 20000 in
theorem mL_spread_k15 : Cond.classLink RL 15 "java/lang/IllegalArgumentException" ∈ wsL_spread := by decide +kernel
set_option maxHeartbeats 4000000 in
set_option maxRecDepth 100000 in
theorem qL_spread {E : evT} {l : Launch} {D : va_G} {ad bd : Nat → Nat} {qo : Nat} {κ : Nat → ClassId} (hE : EvOk E) (hT : TOk E) (hfl : l.stackTraces = false) (hC : COk E) (p1 : Int32) (s : lS) {o : ((Nat × lS) ⊕ (Int32 × lS))} (h : fL_spread p1 s = some o) : Xi l yL_spread wsL_spread rmL_spread (lW ad bd κ qo) E D (tyA κ) .int [.ref (ad 55), .int p1, .ref qo] s (fun r s2 => o = .inr (r, s2)) (fun e s2 => o = .inl (e, s2)) := by
  rw [fL_spread] at h
  refine s_xiH (hh := [(0, 9, 12, 15)]) (cc := cL_spread) (nL := 4) (own := RL) hE (lW_WA ad bd κ qo) (by decide) rfl rfl (Nat.le_of_ble_eq_true rfl) (fun Γ Qc G X9 hret => ?_)
  refine r_aload_n G 2 rfl rfl dL_spread_0 ?_
  refine r_iconst G (v := 0) (by decide) dL_spread_1 ?_
  refine r_aload_n G 0 rfl rfl dL_spread_2 ?_
  refine r_iload_n G 1 rfl rfl dL_spread_3 ?_
  obtain ⟨o1, e1, h⟩ := ob h
  refine e_callVix G (fun x9 : cS => (x9, s.2.1, s.2.2)) (fun x9 => lW_c ad bd κ qo x9 _ _) rfl [.int p1] (qX7_spread hE hT hfl p1 _ e1) ⟨55, 7, _, _, rfl, (lw_SC ad bd κ qo _), rfl⟩ gL_spread_X7_spread rfl hdX7_spread ⟨Nat.le_of_ble_eq_true rfl, Nat.le_of_ble_eq_true rfl⟩ (Nat.le_of_ble_eq_true rfl) rfl ⟨Nat.le_of_ble_eq_true rfl, Nat.le_of_ble_eq_true rfl⟩ rfl rfl dL_spread_4 (fun k9 st9 hp9 => ?_) (fun r1 s1 hp hn1 => ?_)
  · subst hp9
    try dsimp only [Sum.elim_inl] at h
    by_cases c9 : k9 = 2
    · subst c9
      rw [if_pos rfl] at h
      refine r_catch G [] ⟨0, 9, 12, 15⟩ [] (by rw [X9.2.1]; rfl) (fun _ hz => nomatch hz) (by decide) (by decide) mL_spread_k15 ((hC _ _ _ G.ev).c2) (fun q => ?_)
      refine r_astore_n G (lv' := []) [] rfl rfl (by decide) dL_spread_12 ?_
      refine r_iconst G (v := 1) (by decide) dL_spread_13 ?_
      exact hret _ _ _ _ _ _ dL_spread_14 (Option.some.inj h).symm rfl (Nat.le_of_ble_eq_true rfl) (Nat.le_of_ble_eq_true rfl)
    · rw [if_neg c9] at h
      cases h
  subst hp
  try dsimp only [Sum.elim_inr] at h
  refine r_i2l G dL_spread_7 ?_
  refine r_outst G dL_spread_8 ?_
  refine r_goto G (tgt := 15) dL_spread_9 (by decide) ?_
  refine r_iconst G (v := 0) (by decide) dL_spread_15 ?_
  exact hret _ _ _ _ _ _ dL_spread_16 (Option.some.inj h).symm rfl (Nat.le_of_ble_eq_true rfl) (Nat.le_of_ble_eq_true rfl)

abbrev rmL_isClosed : Room := rmLw
theorem hdX7_isClosed : yX7_isClosed.cls = RX7 ∧ yX7_isClosed.cls ≠ "java/lang/invoke/MethodHandle" ∧ yX7_isClosed.cls ≠ "java/lang/invoke/VarHandle" ∧ (parseMethodDescriptor yX7_isClosed.desc).map (fun d => d.parameters.length) = some 1 := by decide +kernel
set_option maxRecDepth 20000 in
theorem mL_isClosed_k15 : Cond.classLink RL 15 "java/lang/IllegalArgumentException" ∈ wsL_isClosed := by decide +kernel
set_option maxHeartbeats 4000000 in
set_option maxRecDepth 100000 in
theorem qL_isClosed {E : evT} {l : Launch} {D : va_G} {ad bd : Nat → Nat} {qo : Nat} {κ : Nat → ClassId} (hE : EvOk E) (hT : TOk E) (hfl : l.stackTraces = false) (hC : COk E) (p1 : Int32) (s : lS) {o : ((Nat × lS) ⊕ (Int32 × lS))} (h : fL_isClosed p1 s = some o) : Xi l yL_isClosed wsL_isClosed rmL_isClosed (lW ad bd κ qo) E D (tyA κ) .int [.ref (ad 55), .int p1, .ref qo] s (fun r s2 => o = .inr (r, s2)) (fun e s2 => o = .inl (e, s2)) := by
  rw [fL_isClosed] at h
  refine s_xiH (hh := [(0, 16, 19, 15)]) (cc := cL_isClosed) (nL := 4) (own := RL) hE (lW_WA ad bd κ qo) (by decide) rfl rfl (Nat.le_of_ble_eq_true rfl) (fun Γ Qc G X9 hret => ?_)
  refine r_aload_n G 2 rfl rfl dL_isClosed_0 ?_
  refine r_iconst G (v := 0) (by decide) dL_isClosed_1 ?_
  refine r_aload_n G 0 rfl rfl dL_isClosed_2 ?_
  refine r_iload_n G 1 rfl rfl dL_isClosed_3 ?_
  obtain ⟨o1, e1, h⟩ := ob h
  refine e_callVix G (fun x9 : cS => (x9, s.2.1, s.2.2)) (fun x9 => lW_c ad bd κ qo x9 _ _) rfl [.int p1] (qX7_isClosed hE hT hfl p1 _ e1) ⟨55, 7, _, _, rfl, (lw_SC ad bd κ qo _), rfl⟩ gL_isClosed_X7_isClosed rfl hdX7_isClosed ⟨Nat.le_of_ble_eq_true rfl, Nat.le_of_ble_eq_true rfl⟩ (Nat.le_of_ble_eq_true rfl) rfl ⟨Nat.le_of_ble_eq_true rfl, Nat.le_of_ble_eq_true rfl⟩ rfl rfl dL_isClosed_4 (fun k9 st9 hp9 => ?_) (fun r1 s1 hp hn1 => ?_)
  · subst hp9
    try dsimp only [Sum.elim_inl] at h
    by_cases c9 : k9 = 2
    · subst c9
      rw [if_pos rfl] at h
      refine r_catch G [] ⟨0, 16, 19, 15⟩ [] (by rw [X9.2.1]; rfl) (fun _ hz => nomatch hz) (by decide) (by decide) mL_isClosed_k15 ((hC _ _ _ G.ev).c2) (fun q => ?_)
      refine r_astore_n G (lv' := []) [] rfl rfl (by decide) dL_isClosed_19 ?_
      refine r_iconst G (v := 1) (by decide) dL_isClosed_20 ?_
      exact hret _ _ _ _ _ _ dL_isClosed_21 (Option.some.inj h).symm rfl (Nat.le_of_ble_eq_true rfl) (Nat.le_of_ble_eq_true rfl)
    · rw [if_neg c9] at h
      cases h
  subst hp
  try dsimp only [Sum.elim_inr] at h
  refine r_if_eq G (tgt := 14) dL_isClosed_7 (by decide) (fun c => ?_) (fun c => ?_)
  · rw [if_pos c] at h
    refine r_lconst G (v := 0) (by decide) dL_isClosed_14 ?_
    refine r_outst G dL_isClosed_15 ?_
    refine r_goto G (tgt := 22) dL_isClosed_16 (by decide) ?_
    refine r_iconst G (v := 0) (by decide) dL_isClosed_22 ?_
    exact hret _ _ _ _ _ _ dL_isClosed_23 (Option.some.inj h).symm rfl (Nat.le_of_ble_eq_true rfl) (Nat.le_of_ble_eq_true rfl)
  · rw [if_neg c] at h
    refine r_lconst G (v := 1) (by decide) dL_isClosed_10 ?_
    refine r_goto G (tgt := 15) dL_isClosed_11 (by decide) ?_
    refine r_outst G dL_isClosed_15 ?_
    refine r_goto G (tgt := 22) dL_isClosed_16 (by decide) ?_
    refine r_iconst G (v := 0) (by decide) dL_isClosed_22 ?_
    exact hret _ _ _ _ _ _ dL_isClosed_23 (Option.some.inj h).symm rfl (Nat.le_of_ble_eq_true rfl) (Nat.le_of_ble_eq_true rfl)

abbrev rmL_primesWithin : Room := rmLw
theorem hdX7_primesWithin : yX7_primesWithin.cls = RX7 ∧ yX7_primesWithin.cls ≠ "java/lang/invoke/MethodHandle" ∧ yX7_primesWithin.cls ≠ "java/lang/invoke/VarHandle" ∧ (parseMethodDescriptor yX7_primesWithin.desc).map (fun d => d.parameters.length) = some 1 := by decide +kernel
set_option maxRecDepth 20000 in
theorem mL_primesWithin_k13 : Cond.classLink RL 13 "java/lang/IndexOutOfBoundsException" ∈ wsL_primesWithin := by decide +kernel
set_option maxHeartbeats 4000000 in
set_option maxRecDepth 100000 in
theorem qL_primesWithin {E : evT} {l : Launch} {D : va_G} {ad bd : Nat → Nat} {qo : Nat} {κ : Nat → ClassId} (hE : EvOk E) (hT : TOk E) (hfl : l.stackTraces = false) (hC : COk E) (p1 : Int32) (s : lS) {o : ((Nat × lS) ⊕ (Int32 × lS))} (h : fL_primesWithin p1 s = some o) : Xi l yL_primesWithin wsL_primesWithin rmL_primesWithin (lW ad bd κ qo) E D (tyA κ) .int [.ref (ad 55), .int p1, .ref qo] s (fun r s2 => o = .inr (r, s2)) (fun e s2 => o = .inl (e, s2)) := by
  rw [fL_primesWithin] at h
  refine s_xiH (hh := [(0, 9, 12, 13)]) (cc := cL_primesWithin) (nL := 4) (own := RL) hE (lW_WA ad bd κ qo) (by decide) rfl rfl (Nat.le_of_ble_eq_true rfl) (fun Γ Qc G X9 hret => ?_)
  refine r_aload_n G 2 rfl rfl dL_primesWithin_0 ?_
  refine r_iconst G (v := 0) (by decide) dL_primesWithin_1 ?_
  refine r_aload_n G 0 rfl rfl dL_primesWithin_2 ?_
  refine r_iload_n G 1 rfl rfl dL_primesWithin_3 ?_
  obtain ⟨o1, e1, h⟩ := ob h
  refine e_callVix G (fun x9 : cS => (x9, s.2.1, s.2.2)) (fun x9 => lW_c ad bd κ qo x9 _ _) rfl [.int p1] (qX7_primesWithin hE hT hfl p1 _ e1) ⟨55, 7, _, _, rfl, (lw_SC ad bd κ qo _), rfl⟩ gL_primesWithin_X7_primesWithin rfl hdX7_primesWithin ⟨Nat.le_of_ble_eq_true rfl, Nat.le_of_ble_eq_true rfl⟩ (Nat.le_of_ble_eq_true rfl) rfl ⟨Nat.le_of_ble_eq_true rfl, Nat.le_of_ble_eq_true rfl⟩ rfl rfl dL_primesWithin_4 (fun k9 st9 hp9 => ?_) (fun r1 s1 hp hn1 => ?_)
  · subst hp9
    try dsimp only [Sum.elim_inl] at h
    by_cases c9 : k9 = 1
    · subst c9
      rw [if_pos rfl] at h
      refine r_catch G [] ⟨0, 9, 12, 13⟩ [] (by rw [X9.2.1]; rfl) (fun _ hz => nomatch hz) (by decide) (by decide) mL_primesWithin_k13 ((hC _ _ _ G.ev).c1) (fun q => ?_)
      refine r_astore_n G (lv' := []) [] rfl rfl (by decide) dL_primesWithin_12 ?_
      refine r_iconst G (v := 1) (by decide) dL_primesWithin_13 ?_
      exact hret _ _ _ _ _ _ dL_primesWithin_14 (Option.some.inj h).symm rfl (Nat.le_of_ble_eq_true rfl) (Nat.le_of_ble_eq_true rfl)
    · rw [if_neg c9] at h
      cases h
  subst hp
  try dsimp only [Sum.elim_inr] at h
  refine r_i2l G dL_primesWithin_7 ?_
  refine r_outst G dL_primesWithin_8 ?_
  refine r_goto G (tgt := 15) dL_primesWithin_9 (by decide) ?_
  refine r_iconst G (v := 0) (by decide) dL_primesWithin_15 ?_
  exact hret _ _ _ _ _ _ dL_primesWithin_16 (Option.some.inj h).symm rfl (Nat.le_of_ble_eq_true rfl) (Nat.le_of_ble_eq_true rfl)

abbrev rmL_type : Room := rmLw
theorem hdX7_type : yX7_type.cls = RX7 ∧ yX7_type.cls ≠ "java/lang/invoke/MethodHandle" ∧ yX7_type.cls ≠ "java/lang/invoke/VarHandle" ∧ (parseMethodDescriptor yX7_type.desc).map (fun d => d.parameters.length) = some 1 := by decide +kernel
set_option maxRecDepth 20000 in
theorem mL_type_k84 : Cond.classLink RL 84 "java/lang/IllegalStateException" ∈ wsL_type := by decide +kernel
set_option maxHeartbeats 4000000 in
set_option maxRecDepth 100000 in
theorem qL_type {E : evT} {l : Launch} {D : va_G} {ad bd : Nat → Nat} {qo : Nat} {κ : Nat → ClassId} (hE : EvOk E) (hT : TOk E) (hfl : l.stackTraces = false) (hC : COk E) (p1 : Int64) (s : lS) {o : ((Nat × lS) ⊕ (Int32 × lS))} (h : fL_type p1 s = some o) : Xi l yL_type wsL_type rmL_type (lW ad bd κ qo) E D (tyA κ) .int [.ref (ad 55), .long p1, .ref qo] s (fun r s2 => o = .inr (r, s2)) (fun e s2 => o = .inl (e, s2)) := by
  rw [fL_type] at h
  refine s_xiH (hh := [(0, 9, 12, 84)]) (cc := cL_type) (nL := 5) (own := RL) hE (lW_WA ad bd κ qo) (by decide) rfl rfl (Nat.le_of_ble_eq_true rfl) (fun Γ Qc G X9 hret => ?_)
  refine r_aload_n G 2 rfl rfl dL_type_0 ?_
  refine r_iconst G (v := 0) (by decide) dL_type_1 ?_
  refine r_aload_n G 0 rfl rfl dL_type_2 ?_
  refine r_lload_n G 1 rfl rfl dL_type_3 ?_
  obtain ⟨o1, e1, h⟩ := ob h
  refine e_callVix G (fun x9 : cS => (x9, s.2.1, s.2.2)) (fun x9 => lW_c ad bd κ qo x9 _ _) rfl [.long p1] (qX7_type hE hT hfl p1 _ e1) ⟨55, 7, _, _, rfl, (lw_SC ad bd κ qo _), rfl⟩ gL_type_X7_type rfl hdX7_type ⟨Nat.le_of_ble_eq_true rfl, Nat.le_of_ble_eq_true rfl⟩ (Nat.le_of_ble_eq_true rfl) rfl ⟨Nat.le_of_ble_eq_true rfl, Nat.le_of_ble_eq_true rfl⟩ rfl rfl dL_type_4 (fun k9 st9 hp9 => ?_) (fun r1 s1 hp hn1 => ?_)
  · subst hp9
    try dsimp only [Sum.elim_inl] at h
    by_cases c9 : k9 = 4
    · subst c9
      rw [if_pos rfl] at h
      refine r_catch G [] ⟨0, 9, 12, 84⟩ [] (by rw [X9.2.1]; rfl) (fun _ hz => nomatch hz) (by decide) (by decide) mL_type_k84 ((hC _ _ _ G.ev).c4) (fun q => ?_)
      refine r_astore G (lv' := []) [] rfl (by decide) dL_type_12 ?_
      refine r_iconst G (v := 1) (by decide) dL_type_14 ?_
      exact hret _ _ _ _ _ _ dL_type_15 (Option.some.inj h).symm rfl (Nat.le_of_ble_eq_true rfl) (Nat.le_of_ble_eq_true rfl)
    · rw [if_neg c9] at h
      cases h
  subst hp
  try dsimp only [Sum.elim_inr] at h
  refine r_i2l G dL_type_7 ?_
  refine r_outst G dL_type_8 ?_
  refine r_goto G (tgt := 16) dL_type_9 (by decide) ?_
  refine r_iconst G (v := 0) (by decide) dL_type_16 ?_
  exact hret _ _ _ _ _ _ dL_type_17 (Option.some.inj h).symm rfl (Nat.le_of_ble_eq_true rfl) (Nat.le_of_ble_eq_true rfl)

abbrev rmL_example : Room := rmLw
theorem hdX7_example : yX7_example.cls = RX7 ∧ yX7_example.cls ≠ "java/lang/invoke/MethodHandle" ∧ yX7_example.cls ≠ "java/lang/invoke/VarHandle" ∧ (parseMethodDescriptor yX7_example.desc).map (fun d => d.parameters.length) = some 1 := by decide +kernel
set_option maxRecDepth 20000 in
theorem mL_example_k15 : Cond.classLink RL 15 "java/lang/IllegalArgumentException" ∈ wsL_example := by decide +kernel
set_option maxHeartbeats 4000000 in
set_option maxRecDepth 100000 in
theorem qL_example {E : evT} {l : Launch} {D : va_G} {ad bd : Nat → Nat} {qo : Nat} {κ : Nat → ClassId} (hE : EvOk E) (hT : TOk E) (hfl : l.stackTraces = false) (hC : COk E) {kK kV : Nat → Nat} (hSt : SOk E kK kV) (p1 : Int32) (s : lS) {o : ((Nat × lS) ⊕ (Int32 × lS))} (h : fL_example p1 s = some o) : Xi l yL_example wsL_example rmL_example (lW ad bd κ qo) E D (tyA κ) .int [.ref (ad 55), .int p1, .ref qo] s (fun r s2 => o = .inr (r, s2)) (fun e s2 => o = .inl (e, s2)) := by
  rw [fL_example] at h
  refine s_xiH (hh := [(0, 9, 12, 15)]) (cc := cL_example) (nL := 4) (own := RL) hE (lW_WA ad bd κ qo) (by decide) rfl rfl (Nat.le_of_ble_eq_true rfl) (fun Γ Qc G X9 hret => ?_)
  refine r_aload_n G 2 rfl rfl dL_example_0 ?_
  refine r_iconst G (v := 0) (by decide) dL_example_1 ?_
  refine r_aload_n G 0 rfl rfl dL_example_2 ?_
  refine r_iload_n G 1 rfl rfl dL_example_3 ?_
  obtain ⟨o1, e1, h⟩ := ob h
  refine e_callVix G (fun x9 : cS => (x9, s.2.1, s.2.2)) (fun x9 => lW_c ad bd κ qo x9 _ _) rfl [.int p1] (qX7_example hE hT hfl hSt p1 _ e1) ⟨55, 7, _, _, rfl, (lw_SC ad bd κ qo _), rfl⟩ gL_example_X7_example rfl hdX7_example ⟨Nat.le_of_ble_eq_true rfl, Nat.le_of_ble_eq_true rfl⟩ (Nat.le_of_ble_eq_true rfl) rfl ⟨Nat.le_of_ble_eq_true rfl, Nat.le_of_ble_eq_true rfl⟩ rfl rfl dL_example_4 (fun k9 st9 hp9 => ?_) (fun r1 s1 hp hn1 => ?_)
  · subst hp9
    try dsimp only [Sum.elim_inl] at h
    by_cases c9 : k9 = 2
    · subst c9
      rw [if_pos rfl] at h
      refine r_catch G [] ⟨0, 9, 12, 15⟩ [] (by rw [X9.2.1]; rfl) (fun _ hz => nomatch hz) (by decide) (by decide) mL_example_k15 ((hC _ _ _ G.ev).c2) (fun q => ?_)
      refine r_astore_n G (lv' := []) [] rfl rfl (by decide) dL_example_12 ?_
      refine r_iconst G (v := 1) (by decide) dL_example_13 ?_
      exact hret _ _ _ _ _ _ dL_example_14 (Option.some.inj h).symm rfl (Nat.le_of_ble_eq_true rfl) (Nat.le_of_ble_eq_true rfl)
    · rw [if_neg c9] at h
      cases h
  subst hp
  try dsimp only [Sum.elim_inr] at h
  refine r_i2l G dL_example_7 ?_
  refine r_outst G dL_example_8 ?_
  refine r_goto G (tgt := 15) dL_example_9 (by decide) ?_
  refine r_iconst G (v := 0) (by decide) dL_example_15 ?_
  exact hret _ _ _ _ _ _ dL_example_16 (Option.some.inj h).symm rfl (Nat.le_of_ble_eq_true rfl) (Nat.le_of_ble_eq_true rfl)

abbrev rmL_run : Room := rmLw
theorem hdX7_run : yX7_run.cls = RX7 ∧ yX7_run.cls ≠ "java/lang/invoke/MethodHandle" ∧ yX7_run.cls ≠ "java/lang/invoke/VarHandle" ∧ (parseMethodDescriptor yX7_run.desc).map (fun d => d.parameters.length) = some 0 := by decide +kernel
set_option maxRecDepth 20000 in
theorem mL_run_k84 : Cond.classLink RL 84 "java/lang/IllegalStateException" ∈ wsL_run := by decide +kernel
set_option maxHeartbeats 4000000 in
set_option maxRecDepth 100000 in
theorem qL_run {E : evT} {l : Launch} {D : va_G} {ad bd : Nat → Nat} {qo : Nat} {κ : Nat → ClassId} (hE : EvOk E) (hT : TOk E) (hfl : l.stackTraces = false) (hC : COk E) (s : lS) {o : ((Nat × lS) ⊕ (Int32 × lS))} (h : fL_run s = some o) : Xi l yL_run wsL_run rmL_run (lW ad bd κ qo) E D (tyA κ) .int [.ref (ad 55), .ref qo] s (fun r s2 => o = .inr (r, s2)) (fun e s2 => o = .inl (e, s2)) := by
  rw [fL_run] at h
  refine s_xiH (hh := [(0, 8, 11, 84)]) (cc := cL_run) (nL := 3) (own := RL) hE (lW_WA ad bd κ qo) (by decide) rfl rfl (Nat.le_of_ble_eq_true rfl) (fun Γ Qc G X9 hret => ?_)
  refine r_aload_n G 1 rfl rfl dL_run_0 ?_
  refine r_iconst G (v := 0) (by decide) dL_run_1 ?_
  refine r_aload_n G 0 rfl rfl dL_run_2 ?_
  obtain ⟨o1, e1, h⟩ := ob h
  refine e_callVix G (fun x9 : cS => (x9, s.2.1, s.2.2)) (fun x9 => lW_c ad bd κ qo x9 _ _) rfl [] (qX7_run hE hT hfl _ e1) ⟨55, 7, _, _, rfl, (lw_SC ad bd κ qo _), rfl⟩ gL_run_X7_run rfl hdX7_run ⟨Nat.le_of_ble_eq_true rfl, Nat.le_of_ble_eq_true rfl⟩ (Nat.le_of_ble_eq_true rfl) rfl ⟨Nat.le_of_ble_eq_true rfl, Nat.le_of_ble_eq_true rfl⟩ rfl rfl dL_run_3 (fun k9 st9 hp9 => ?_) (fun r1 s1 hp hn1 => ?_)
  · subst hp9
    try dsimp only [Sum.elim_inl] at h
    by_cases c9 : k9 = 4
    · subst c9
      rw [if_pos rfl] at h
      refine r_catch G [] ⟨0, 8, 11, 84⟩ [] (by rw [X9.2.1]; rfl) (fun _ hz => nomatch hz) (by decide) (by decide) mL_run_k84 ((hC _ _ _ G.ev).c4) (fun q => ?_)
      refine r_astore_n G (lv' := []) [] rfl rfl (by decide) dL_run_11 ?_
      refine r_iconst G (v := 1) (by decide) dL_run_12 ?_
      exact hret _ _ _ _ _ _ dL_run_13 (Option.some.inj h).symm rfl (Nat.le_of_ble_eq_true rfl) (Nat.le_of_ble_eq_true rfl)
    · rw [if_neg c9] at h
      cases h
  subst hp
  try dsimp only [Sum.elim_inr] at h
  refine r_i2l G dL_run_6 ?_
  refine r_outst G dL_run_7 ?_
  refine r_goto G (tgt := 14) dL_run_8 (by decide) ?_
  refine r_iconst G (v := 0) (by decide) dL_run_14 ?_
  exact hret _ _ _ _ _ _ dL_run_15 (Option.some.inj h).symm rfl (Nat.le_of_ble_eq_true rfl) (Nat.le_of_ble_eq_true rfl)

abbrev rmL_viewHas : Room := rmLw
theorem hdX7_viewHas : yX7_viewHas.cls = RX7 ∧ yX7_viewHas.cls ≠ "java/lang/invoke/MethodHandle" ∧ yX7_viewHas.cls ≠ "java/lang/invoke/VarHandle" ∧ (parseMethodDescriptor yX7_viewHas.desc).map (fun d => d.parameters.length) = some 2 := by decide +kernel
set_option maxRecDepth 20000 in
theorem mL_viewHas_k13 : Cond.classLink RL 13 "java/lang/IndexOutOfBoundsException" ∈ wsL_viewHas := by decide +kernel
set_option maxHeartbeats 4000000 in
set_option maxRecDepth 100000 in
theorem qL_viewHas {E : evT} {l : Launch} {D : va_G} {ad bd : Nat → Nat} {qo : Nat} {κ : Nat → ClassId} (hE : EvOk E) (hT : TOk E) (hfl : l.stackTraces = false) (hC : COk E) (p1 : Int32) (p2 : Int32) (s : lS) {o : ((Nat × lS) ⊕ (Int32 × lS))} (h : fL_viewHas p1 p2 s = some o) : Xi l yL_viewHas wsL_viewHas rmL_viewHas (lW ad bd κ qo) E D (tyA κ) .int [.ref (ad 55), .int p1, .int p2, .ref qo] s (fun r s2 => o = .inr (r, s2)) (fun e s2 => o = .inl (e, s2)) := by
  rw [fL_viewHas] at h
  refine s_xiH (hh := [(0, 17, 20, 13), (0, 17, 24, 15)]) (cc := cL_viewHas) (nL := 5) (own := RL) hE (lW_WA ad bd κ qo) (by decide) rfl rfl (Nat.le_of_ble_eq_true rfl) (fun Γ Qc G X9 hret => ?_)
  refine r_aload_n G 3 rfl rfl dL_viewHas_0 ?_
  refine r_iconst G (v := 0) (by decide) dL_viewHas_1 ?_
  refine r_aload_n G 0 rfl rfl dL_viewHas_2 ?_
  refine r_iload_n G 1 rfl rfl dL_viewHas_3 ?_
  refine r_iload_n G 2 rfl rfl dL_viewHas_4 ?_
  obtain ⟨o1, e1, h⟩ := ob h
  refine e_callVix G (fun x9 : cS => (x9, s.2.1, s.2.2)) (fun x9 => lW_c ad bd κ qo x9 _ _) rfl [.int p1, .int p2] (qX7_viewHas hE hT hfl p1 p2 _ e1) ⟨55, 7, _, _, rfl, (lw_SC ad bd κ qo _), rfl⟩ gL_viewHas_X7_viewHas rfl hdX7_viewHas ⟨Nat.le_of_ble_eq_true rfl, Nat.le_of_ble_eq_true rfl⟩ (Nat.le_of_ble_eq_true rfl) rfl ⟨Nat.le_of_ble_eq_true rfl, Nat.le_of_ble_eq_true rfl⟩ rfl rfl dL_viewHas_5 (fun k9 st9 hp9 => ?_) (fun r1 s1 hp hn1 => ?_)
  · subst hp9
    try dsimp only [Sum.elim_inl] at h
    by_cases c9 : k9 = 1
    · subst c9
      rw [if_pos rfl] at h
      refine r_catch G [] ⟨0, 17, 20, 13⟩ [⟨0, 17, 24, 15⟩] (by rw [X9.2.1]; rfl) (fun _ hz => nomatch hz) (by decide) (by decide) mL_viewHas_k13 ((hC _ _ _ G.ev).c1) (fun q => ?_)
      refine r_astore G (lv' := []) [] rfl (by decide) dL_viewHas_20 ?_
      refine r_iconst G (v := 1) (by decide) dL_viewHas_22 ?_
      exact hret _ _ _ _ _ _ dL_viewHas_23 (Option.some.inj h).symm rfl (Nat.le_of_ble_eq_true rfl) (Nat.le_of_ble_eq_true rfl)
    · rw [if_neg c9] at h
      by_cases c9 : k9 = 2
      · subst c9
        rw [if_pos rfl] at h
        refine r_catchL G [⟨0, 17, 20, 13⟩] ⟨0, 17, 24, 15⟩ [] (by rw [X9.2.1]; rfl) (fun z hz => by have hz := List.mem_singleton.mp hz; subst hz; exact Or.inr ⟨by decide, _, mL_viewHas_k13, (hC _ _ _ G.ev).n21⟩) (by decide) (by decide) ((hC _ _ _ G.ev).l15) ((hC _ _ _ G.ev).c2) (fun q => ?_)
        refine r_astore G (lv' := []) [] rfl (by decide) dL_viewHas_24 ?_
        refine r_iconst G (v := 2) (by decide) dL_viewHas_26 ?_
        exact hret _ _ _ _ _ _ dL_viewHas_27 (Option.some.inj h).symm rfl (Nat.le_of_ble_eq_true rfl) (Nat.le_of_ble_eq_true rfl)
      · rw [if_neg c9] at h
        cases h
  subst hp
  try dsimp only [Sum.elim_inr] at h
  refine r_if_eq G (tgt := 15) dL_viewHas_8 (by decide) (fun c => ?_) (fun c => ?_)
  · rw [if_pos c] at h
    refine r_lconst G (v := 0) (by decide) dL_viewHas_15 ?_
    refine r_outst G dL_viewHas_16 ?_
    refine r_goto G (tgt := 28) dL_viewHas_17 (by decide) ?_
    refine r_iconst G (v := 0) (by decide) dL_viewHas_28 ?_
    exact hret _ _ _ _ _ _ dL_viewHas_29 (Option.some.inj h).symm rfl (Nat.le_of_ble_eq_true rfl) (Nat.le_of_ble_eq_true rfl)
  · rw [if_neg c] at h
    refine r_lconst G (v := 1) (by decide) dL_viewHas_11 ?_
    refine r_goto G (tgt := 16) dL_viewHas_12 (by decide) ?_
    refine r_outst G dL_viewHas_16 ?_
    refine r_goto G (tgt := 28) dL_viewHas_17 (by decide) ?_
    refine r_iconst G (v := 0) (by decide) dL_viewHas_28 ?_
    exact hret _ _ _ _ _ _ dL_viewHas_29 (Option.some.inj h).symm rfl (Nat.le_of_ble_eq_true rfl) (Nat.le_of_ble_eq_true rfl)

abbrev rmL_viewRefuses : Room := rmLw
theorem hdX7_viewRefuses : yX7_viewRefuses.cls = RX7 ∧ yX7_viewRefuses.cls ≠ "java/lang/invoke/MethodHandle" ∧ yX7_viewRefuses.cls ≠ "java/lang/invoke/VarHandle" ∧ (parseMethodDescriptor yX7_viewRefuses.desc).map (fun d => d.parameters.length) = some 3 := by decide +kernel
set_option maxRecDepth 20000 in
theorem mL_viewRefuses_k13 : Cond.classLink RL 13 "java/lang/IndexOutOfBoundsException" ∈ wsL_viewRefuses := by decide +kernel
set_option maxHeartbeats 4000000 in
set_option maxRecDepth 100000 in
theorem qL_viewRefuses {E : evT} {l : Launch} {D : va_G} {ad bd : Nat → Nat} {qo : Nat} {κ : Nat → ClassId} (hE : EvOk E) (hT : TOk E) (hfl : l.stackTraces = false) (hC : COk E) (p1 : Int32) (p2 : Int32) (p3 : Int32) (s : lS) {o : ((Nat × lS) ⊕ (Int32 × lS))} (h : fL_viewRefuses p1 p2 p3 s = some o) : Xi l yL_viewRefuses wsL_viewRefuses rmL_viewRefuses (lW ad bd κ qo) E D (tyA κ) .int [.ref (ad 55), .int p1, .int p2, .int p3, .ref qo] s (fun r s2 => o = .inr (r, s2)) (fun e s2 => o = .inl (e, s2)) := by
  rw [fL_viewRefuses] at h
  refine s_xiH (hh := [(0, 19, 22, 13), (0, 19, 26, 15)]) (cc := cL_viewRefuses) (nL := 6) (own := RL) hE (lW_WA ad bd κ qo) (by decide) rfl rfl (Nat.le_of_ble_eq_true rfl) (fun Γ Qc G X9 hret => ?_)
  refine r_aload G 4 rfl dL_viewRefuses_0 ?_
  refine r_iconst G (v := 0) (by decide) dL_viewRefuses_2 ?_
  refine r_aload_n G 0 rfl rfl dL_viewRefuses_3 ?_
  refine r_iload_n G 1 rfl rfl dL_viewRefuses_4 ?_
  refine r_iload_n G 2 rfl rfl dL_viewRefuses_5 ?_
  refine r_iload_n G 3 rfl rfl dL_viewRefuses_6 ?_
  obtain ⟨o1, e1, h⟩ := ob h
  refine e_callVix G (fun x9 : cS => (x9, s.2.1, s.2.2)) (fun x9 => lW_c ad bd κ qo x9 _ _) rfl [.int p1, .int p2, .int p3] (qX7_viewRefuses hE hT hfl hC p1 p2 p3 _ e1) ⟨55, 7, _, _, rfl, (lw_SC ad bd κ qo _), rfl⟩ gL_viewRefuses_X7_viewRefuses rfl hdX7_viewRefuses ⟨Nat.le_of_ble_eq_true rfl, Nat.le_of_ble_eq_true rfl⟩ (Nat.le_of_ble_eq_true rfl) rfl ⟨Nat.le_of_ble_eq_true rfl, Nat.le_of_ble_eq_true rfl⟩ rfl rfl dL_viewRefuses_7 (fun k9 st9 hp9 => ?_) (fun r1 s1 hp hn1 => ?_)
  · subst hp9
    try dsimp only [Sum.elim_inl] at h
    by_cases c9 : k9 = 1
    · subst c9
      rw [if_pos rfl] at h
      refine r_catch G [] ⟨0, 19, 22, 13⟩ [⟨0, 19, 26, 15⟩] (by rw [X9.2.1]; rfl) (fun _ hz => nomatch hz) (by decide) (by decide) mL_viewRefuses_k13 ((hC _ _ _ G.ev).c1) (fun q => ?_)
      refine r_astore G (lv' := []) [] rfl (by decide) dL_viewRefuses_22 ?_
      refine r_iconst G (v := 1) (by decide) dL_viewRefuses_24 ?_
      exact hret _ _ _ _ _ _ dL_viewRefuses_25 (Option.some.inj h).symm rfl (Nat.le_of_ble_eq_true rfl) (Nat.le_of_ble_eq_true rfl)
    · rw [if_neg c9] at h
      by_cases c9 : k9 = 2
      · subst c9
        rw [if_pos rfl] at h
        refine r_catchL G [⟨0, 19, 22, 13⟩] ⟨0, 19, 26, 15⟩ [] (by rw [X9.2.1]; rfl) (fun z hz => by have hz := List.mem_singleton.mp hz; subst hz; exact Or.inr ⟨by decide, _, mL_viewRefuses_k13, (hC _ _ _ G.ev).n21⟩) (by decide) (by decide) ((hC _ _ _ G.ev).l15) ((hC _ _ _ G.ev).c2) (fun q => ?_)
        refine r_astore G (lv' := []) [] rfl (by decide) dL_viewRefuses_26 ?_
        refine r_iconst G (v := 2) (by decide) dL_viewRefuses_28 ?_
        exact hret _ _ _ _ _ _ dL_viewRefuses_29 (Option.some.inj h).symm rfl (Nat.le_of_ble_eq_true rfl) (Nat.le_of_ble_eq_true rfl)
      · rw [if_neg c9] at h
        cases h
  subst hp
  try dsimp only [Sum.elim_inr] at h
  refine r_if_eq G (tgt := 17) dL_viewRefuses_10 (by decide) (fun c => ?_) (fun c => ?_)
  · rw [if_pos c] at h
    refine r_lconst G (v := 0) (by decide) dL_viewRefuses_17 ?_
    refine r_outst G dL_viewRefuses_18 ?_
    refine r_goto G (tgt := 30) dL_viewRefuses_19 (by decide) ?_
    refine r_iconst G (v := 0) (by decide) dL_viewRefuses_30 ?_
    exact hret _ _ _ _ _ _ dL_viewRefuses_31 (Option.some.inj h).symm rfl (Nat.le_of_ble_eq_true rfl) (Nat.le_of_ble_eq_true rfl)
  · rw [if_neg c] at h
    refine r_lconst G (v := 1) (by decide) dL_viewRefuses_13 ?_
    refine r_goto G (tgt := 18) dL_viewRefuses_14 (by decide) ?_
    refine r_outst G dL_viewRefuses_18 ?_
    refine r_goto G (tgt := 30) dL_viewRefuses_19 (by decide) ?_
    refine r_iconst G (v := 0) (by decide) dL_viewRefuses_30 ?_
    exact hret _ _ _ _ _ _ dL_viewRefuses_31 (Option.some.inj h).symm rfl (Nat.le_of_ble_eq_true rfl) (Nat.le_of_ble_eq_true rfl)

abbrev rmL_walkRefuses : Room := rmLw
theorem hdX7_walkRefuses : yX7_walkRefuses.cls = RX7 ∧ yX7_walkRefuses.cls ≠ "java/lang/invoke/MethodHandle" ∧ yX7_walkRefuses.cls ≠ "java/lang/invoke/VarHandle" ∧ (parseMethodDescriptor yX7_walkRefuses.desc).map (fun d => d.parameters.length) = some 2 := by decide +kernel
set_option maxRecDepth 20000 in
theorem mL_walkRefuses_k13 : Cond.classLink RL 13 "java/lang/IndexOutOfBoundsException" ∈ wsL_walkRefuses := by decide +kernel
set_option maxHeartbeats 4000000 in
set_option maxRecDepth 100000 in
theorem qL_walkRefuses {E : evT} {l : Launch} {D : va_G} {ad bd : Nat → Nat} {qo : Nat} {κ : Nat → ClassId} (hE : EvOk E) (hT : TOk E) (hfl : l.stackTraces = false) (hC : COk E) (p1 : Int32) (p2 : Int32) (s : lS) {o : ((Nat × lS) ⊕ (Int32 × lS))} (h : fL_walkRefuses p1 p2 s = some o) : Xi l yL_walkRefuses wsL_walkRefuses rmL_walkRefuses (lW ad bd κ qo) E D (tyA κ) .int [.ref (ad 55), .int p1, .int p2, .ref qo] s (fun r s2 => o = .inr (r, s2)) (fun e s2 => o = .inl (e, s2)) := by
  rw [fL_walkRefuses] at h
  refine s_xiH (hh := [(0, 10, 13, 13), (0, 10, 17, 15)]) (cc := cL_walkRefuses) (nL := 5) (own := RL) hE (lW_WA ad bd κ qo) (by decide) rfl rfl (Nat.le_of_ble_eq_true rfl) (fun Γ Qc G X9 hret => ?_)
  refine r_aload_n G 3 rfl rfl dL_walkRefuses_0 ?_
  refine r_iconst G (v := 0) (by decide) dL_walkRefuses_1 ?_
  refine r_aload_n G 0 rfl rfl dL_walkRefuses_2 ?_
  refine r_iload_n G 1 rfl rfl dL_walkRefuses_3 ?_
  refine r_iload_n G 2 rfl rfl dL_walkRefuses_4 ?_
  obtain ⟨o1, e1, h⟩ := ob h
  refine e_callVixH G (fun x9 : cS => (x9, s.2.1, s.2.2)) (fun x9 => lW_c ad bd κ qo x9 _ _) rfl [.int p1, .int p2] (qX7_walkRefuses hE hT hfl hC p1 p2 _ e1) ⟨55, 7, _, _, rfl, (lw_SC ad bd κ qo _), rfl⟩ gL_walkRefuses_X7_walkRefuses rfl hdX7_walkRefuses ⟨Nat.le_of_ble_eq_true rfl, Nat.le_of_ble_eq_true rfl⟩ (Nat.le_of_ble_eq_true rfl) rfl ⟨Nat.le_of_ble_eq_true rfl, Nat.le_of_ble_eq_true rfl⟩ rfl rfl dL_walkRefuses_5 (fun k9 st9 hp9 => ?_) (fun r1 s1 hp hn1 => ?_)
  · subst hp9
    try dsimp only [Sum.elim_inl] at h
    by_cases c9 : k9 = 1
    · subst c9
      rw [if_pos rfl] at h
      refine r_catch G [] ⟨0, 10, 13, 13⟩ [⟨0, 10, 17, 15⟩] (by rw [X9.2.1]; rfl) (fun _ hz => nomatch hz) (by decide) (by decide) mL_walkRefuses_k13 ((hC _ _ _ G.ev).c1) (fun q => ?_)
      refine r_astore G (lv' := []) [] rfl (by decide) dL_walkRefuses_13 ?_
      refine r_iconst G (v := 1) (by decide) dL_walkRefuses_15 ?_
      exact hret _ _ _ _ _ _ dL_walkRefuses_16 (Option.some.inj h).symm rfl (Nat.le_of_ble_eq_true rfl) (Nat.le_of_ble_eq_true rfl)
    · rw [if_neg c9] at h
      by_cases c9 : k9 = 2
      · subst c9
        rw [if_pos rfl] at h
        refine r_catchL G [⟨0, 10, 13, 13⟩] ⟨0, 10, 17, 15⟩ [] (by rw [X9.2.1]; rfl) (fun z hz => by have hz := List.mem_singleton.mp hz; subst hz; exact Or.inr ⟨by decide, _, mL_walkRefuses_k13, (hC _ _ _ G.ev).n21⟩) (by decide) (by decide) ((hC _ _ _ G.ev).l15) ((hC _ _ _ G.ev).c2) (fun q => ?_)
        refine r_astore G (lv' := []) [] rfl (by decide) dL_walkRefuses_17 ?_
        refine r_iconst G (v := 2) (by decide) dL_walkRefuses_19 ?_
        exact hret _ _ _ _ _ _ dL_walkRefuses_20 (Option.some.inj h).symm rfl (Nat.le_of_ble_eq_true rfl) (Nat.le_of_ble_eq_true rfl)
      · rw [if_neg c9] at h
        cases h
  subst hp
  try dsimp only [Sum.elim_inr] at h
  refine r_i2l G dL_walkRefuses_8 ?_
  refine r_outst G dL_walkRefuses_9 ?_
  refine r_goto G (tgt := 21) dL_walkRefuses_10 (by decide) ?_
  refine r_iconst G (v := 0) (by decide) dL_walkRefuses_21 ?_
  exact hret _ _ _ _ _ _ dL_walkRefuses_22 (Option.some.inj h).symm rfl (Nat.le_of_ble_eq_true rfl) (Nat.le_of_ble_eq_true rfl)

abbrev rmL_nullRefuses : Room := rmLw
theorem hdX7_nullRefuses : yX7_nullRefuses.cls = RX7 ∧ yX7_nullRefuses.cls ≠ "java/lang/invoke/MethodHandle" ∧ yX7_nullRefuses.cls ≠ "java/lang/invoke/VarHandle" ∧ (parseMethodDescriptor yX7_nullRefuses.desc).map (fun d => d.parameters.length) = some 2 := by decide +kernel
set_option maxRecDepth 20000 in
theorem mL_nullRefuses_k13 : Cond.classLink RL 13 "java/lang/IndexOutOfBoundsException" ∈ wsL_nullRefuses := by decide +kernel
set_option maxHeartbeats 4000000 in
set_option maxRecDepth 100000 in
theorem qL_nullRefuses {E : evT} {l : Launch} {D : va_G} {ad bd : Nat → Nat} {qo : Nat} {κ : Nat → ClassId} (hE : EvOk E) (hT : TOk E) (hfl : l.stackTraces = false) (hC : COk E) (p1 : Int32) (p2 : Int32) (s : lS) {o : ((Nat × lS) ⊕ (Int32 × lS))} (h : fL_nullRefuses p1 p2 s = some o) : Xi l yL_nullRefuses wsL_nullRefuses rmL_nullRefuses (lW ad bd κ qo) E D (tyA κ) .int [.ref (ad 55), .int p1, .int p2, .ref qo] s (fun r s2 => o = .inr (r, s2)) (fun e s2 => o = .inl (e, s2)) := by
  rw [fL_nullRefuses] at h
  refine s_xiH (hh := [(0, 17, 20, 13), (0, 17, 24, 15)]) (cc := cL_nullRefuses) (nL := 5) (own := RL) hE (lW_WA ad bd κ qo) (by decide) rfl rfl (Nat.le_of_ble_eq_true rfl) (fun Γ Qc G X9 hret => ?_)
  refine r_aload_n G 3 rfl rfl dL_nullRefuses_0 ?_
  refine r_iconst G (v := 0) (by decide) dL_nullRefuses_1 ?_
  refine r_aload_n G 0 rfl rfl dL_nullRefuses_2 ?_
  refine r_iload_n G 1 rfl rfl dL_nullRefuses_3 ?_
  refine r_iload_n G 2 rfl rfl dL_nullRefuses_4 ?_
  obtain ⟨o1, e1, h⟩ := ob h
  refine e_callVix G (fun x9 : cS => (x9, s.2.1, s.2.2)) (fun x9 => lW_c ad bd κ qo x9 _ _) rfl [.int p1, .int p2] (qX7_nullRefuses hE hT hfl hC p1 p2 _ e1) ⟨55, 7, _, _, rfl, (lw_SC ad bd κ qo _), rfl⟩ gL_nullRefuses_X7_nullRefuses rfl hdX7_nullRefuses ⟨Nat.le_of_ble_eq_true rfl, Nat.le_of_ble_eq_true rfl⟩ (Nat.le_of_ble_eq_true rfl) rfl ⟨Nat.le_of_ble_eq_true rfl, Nat.le_of_ble_eq_true rfl⟩ rfl rfl dL_nullRefuses_5 (fun k9 st9 hp9 => ?_) (fun r1 s1 hp hn1 => ?_)
  · subst hp9
    try dsimp only [Sum.elim_inl] at h
    by_cases c9 : k9 = 1
    · subst c9
      rw [if_pos rfl] at h
      refine r_catch G [] ⟨0, 17, 20, 13⟩ [⟨0, 17, 24, 15⟩] (by rw [X9.2.1]; rfl) (fun _ hz => nomatch hz) (by decide) (by decide) mL_nullRefuses_k13 ((hC _ _ _ G.ev).c1) (fun q => ?_)
      refine r_astore G (lv' := []) [] rfl (by decide) dL_nullRefuses_20 ?_
      refine r_iconst G (v := 1) (by decide) dL_nullRefuses_22 ?_
      exact hret _ _ _ _ _ _ dL_nullRefuses_23 (Option.some.inj h).symm rfl (Nat.le_of_ble_eq_true rfl) (Nat.le_of_ble_eq_true rfl)
    · rw [if_neg c9] at h
      by_cases c9 : k9 = 2
      · subst c9
        rw [if_pos rfl] at h
        refine r_catchL G [⟨0, 17, 20, 13⟩] ⟨0, 17, 24, 15⟩ [] (by rw [X9.2.1]; rfl) (fun z hz => by have hz := List.mem_singleton.mp hz; subst hz; exact Or.inr ⟨by decide, _, mL_nullRefuses_k13, (hC _ _ _ G.ev).n21⟩) (by decide) (by decide) ((hC _ _ _ G.ev).l15) ((hC _ _ _ G.ev).c2) (fun q => ?_)
        refine r_astore G (lv' := []) [] rfl (by decide) dL_nullRefuses_24 ?_
        refine r_iconst G (v := 2) (by decide) dL_nullRefuses_26 ?_
        exact hret _ _ _ _ _ _ dL_nullRefuses_27 (Option.some.inj h).symm rfl (Nat.le_of_ble_eq_true rfl) (Nat.le_of_ble_eq_true rfl)
      · rw [if_neg c9] at h
        cases h
  subst hp
  try dsimp only [Sum.elim_inr] at h
  refine r_if_eq G (tgt := 15) dL_nullRefuses_8 (by decide) (fun c => ?_) (fun c => ?_)
  · rw [if_pos c] at h
    refine r_lconst G (v := 0) (by decide) dL_nullRefuses_15 ?_
    refine r_outst G dL_nullRefuses_16 ?_
    refine r_goto G (tgt := 28) dL_nullRefuses_17 (by decide) ?_
    refine r_iconst G (v := 0) (by decide) dL_nullRefuses_28 ?_
    exact hret _ _ _ _ _ _ dL_nullRefuses_29 (Option.some.inj h).symm rfl (Nat.le_of_ble_eq_true rfl) (Nat.le_of_ble_eq_true rfl)
  · rw [if_neg c] at h
    refine r_lconst G (v := 1) (by decide) dL_nullRefuses_11 ?_
    refine r_goto G (tgt := 16) dL_nullRefuses_12 (by decide) ?_
    refine r_outst G dL_nullRefuses_16 ?_
    refine r_goto G (tgt := 28) dL_nullRefuses_17 (by decide) ?_
    refine r_iconst G (v := 0) (by decide) dL_nullRefuses_28 ?_
    exact hret _ _ _ _ _ _ dL_nullRefuses_29 (Option.some.inj h).symm rfl (Nat.le_of_ble_eq_true rfl) (Nat.le_of_ble_eq_true rfl)

abbrev rmL_lawErrors : Room := rmLw
theorem hdX7_lawErrors : yX7_lawErrors.cls = RX7 ∧ yX7_lawErrors.cls ≠ "java/lang/invoke/MethodHandle" ∧ yX7_lawErrors.cls ≠ "java/lang/invoke/VarHandle" ∧ (parseMethodDescriptor yX7_lawErrors.desc).map (fun d => d.parameters.length) = some 3 := by decide +kernel
set_option maxRecDepth 20000 in
theorem mL_lawErrors_k13 : Cond.classLink RL 13 "java/lang/IndexOutOfBoundsException" ∈ wsL_lawErrors := by decide +kernel
set_option maxHeartbeats 4000000 in
set_option maxRecDepth 100000 in
theorem qL_lawErrors {E : evT} {l : Launch} {D : va_G} {ad bd : Nat → Nat} {qo : Nat} {κ : Nat → ClassId} (hE : EvOk E) (hT : TOk E) (hfl : l.stackTraces = false) (hC : COk E) (p1 : Int32) (p2 : Int32) (p3 : Int32) (s : lS) {o : ((Nat × lS) ⊕ (Int32 × lS))} (h : fL_lawErrors p1 p2 p3 s = some o) : Xi l yL_lawErrors wsL_lawErrors rmL_lawErrors (lW ad bd κ qo) E D (tyA κ) .int [.ref (ad 55), .int p1, .int p2, .int p3, .ref qo] s (fun r s2 => o = .inr (r, s2)) (fun e s2 => o = .inl (e, s2)) := by
  rw [fL_lawErrors] at h
  refine s_xiH (hh := [(0, 12, 15, 13)]) (cc := cL_lawErrors) (nL := 6) (own := RL) hE (lW_WA ad bd κ qo) (by decide) rfl rfl (Nat.le_of_ble_eq_true rfl) (fun Γ Qc G X9 hret => ?_)
  refine r_aload G 4 rfl dL_lawErrors_0 ?_
  refine r_iconst G (v := 0) (by decide) dL_lawErrors_2 ?_
  refine r_aload_n G 0 rfl rfl dL_lawErrors_3 ?_
  refine r_iload_n G 1 rfl rfl dL_lawErrors_4 ?_
  refine r_iload_n G 2 rfl rfl dL_lawErrors_5 ?_
  refine r_iload_n G 3 rfl rfl dL_lawErrors_6 ?_
  obtain ⟨o1, e1, h⟩ := ob h
  refine e_callVix G (fun x9 : cS => (x9, s.2.1, s.2.2)) (fun x9 => lW_c ad bd κ qo x9 _ _) rfl [.int p1, .int p2, .int p3] (qX7_lawErrors hE hT hfl p1 p2 p3 _ e1) ⟨55, 7, _, _, rfl, (lw_SC ad bd κ qo _), rfl⟩ gL_lawErrors_X7_lawErrors rfl hdX7_lawErrors ⟨Nat.le_of_ble_eq_true rfl, Nat.le_of_ble_eq_true rfl⟩ (Nat.le_of_ble_eq_true rfl) rfl ⟨Nat.le_of_ble_eq_true rfl, Nat.le_of_ble_eq_true rfl⟩ rfl rfl dL_lawErrors_7 (fun k9 st9 hp9 => ?_) (fun r1 s1 hp hn1 => ?_)
  · subst hp9
    try dsimp only [Sum.elim_inl] at h
    by_cases c9 : k9 = 1
    · subst c9
      rw [if_pos rfl] at h
      refine r_catch G [] ⟨0, 12, 15, 13⟩ [] (by rw [X9.2.1]; rfl) (fun _ hz => nomatch hz) (by decide) (by decide) mL_lawErrors_k13 ((hC _ _ _ G.ev).c1) (fun q => ?_)
      refine r_astore G (lv' := []) [] rfl (by decide) dL_lawErrors_15 ?_
      refine r_iconst G (v := 1) (by decide) dL_lawErrors_17 ?_
      exact hret _ _ _ _ _ _ dL_lawErrors_18 (Option.some.inj h).symm rfl (Nat.le_of_ble_eq_true rfl) (Nat.le_of_ble_eq_true rfl)
    · rw [if_neg c9] at h
      cases h
  subst hp
  try dsimp only [Sum.elim_inr] at h
  refine r_i2l G dL_lawErrors_10 ?_
  refine r_outst G dL_lawErrors_11 ?_
  refine r_goto G (tgt := 19) dL_lawErrors_12 (by decide) ?_
  refine r_iconst G (v := 0) (by decide) dL_lawErrors_19 ?_
  exact hret _ _ _ _ _ _ dL_lawErrors_20 (Option.some.inj h).symm rfl (Nat.le_of_ble_eq_true rfl) (Nat.le_of_ble_eq_true rfl)
