abbrev rmL_without : Room := rmLw
theorem hdX7_without : yX7_without.cls = RX7 ∧ yX7_without.cls ≠ "java/lang/invoke/MethodHandle" ∧ yX7_without.cls ≠ "java/lang/invoke/VarHandle" ∧ (parseMethodDescriptor yX7_without.desc).map (fun d => d.parameters.length) = some 2 := by decide +kernel
set_option maxRecDepth 20000 in
theorem mL_without_k13 : Cond.classLink RL 13 "java/lang/IndexOutOfBoundsException" ∈ wsL_without := by decide +kernel
set_option maxHeartbeats 4000000 in
set_option maxRecDepth 100000 in
theorem qL_without {E : evT} {l : Launch} {D : va_G} {ad bd : Nat → Nat} {qo : Nat} {κ : Nat → ClassId} (hE : EvOk E) (hT : TOk E) (hfl : l.stackTraces = false) (hC : COk E) (p1 : Int32) (p2 : Int32) (s : lS) {o : ((Nat × lS) ⊕ (Int32 × lS))} (h : fL_without p1 p2 s = some o) : Xi l yL_without wsL_without rmL_without (lW ad bd κ qo) E D (tyA κ) .int [.ref (ad 55), .int p1, .int p2, .ref qo] s (fun r s2 => o = .inr (r, s2)) (fun e s2 => o = .inl (e, s2)) := by
  rw [fL_without] at h
  refine s_xiH (hh := [(0, 17, 20, 13)]) (cc := cL_without) (nL := 5) (own := RL) hE (lW_WA ad bd κ qo) (by decide) rfl rfl (Nat.le_of_ble_eq_true rfl) (fun Γ Qc G X9 hret => ?_)
  refine r_aload_n G 3 rfl rfl dL_without_0 ?_
  refine r_iconst G (v := 0) (by decide) dL_without_1 ?_
  refine r_aload_n G 0 rfl rfl dL_without_2 ?_
  refine r_iload_n G 1 rfl rfl dL_without_3 ?_
  refine r_iload_n G 2 rfl rfl dL_without_4 ?_
  obtain ⟨o1, e1, h⟩ := ob h
  refine e_callVix G (fun x9 : cS => (x9, s.2.1, s.2.2)) (fun x9 => lW_c ad bd κ qo x9 _ _) rfl [.int p1, .int p2] (qX7_without hE hT hfl p1 p2 _ e1) ⟨55, 7, _, _, rfl, (lw_SC ad bd κ qo _), rfl⟩ gL_without_X7_without rfl hdX7_without ⟨Nat.le_of_ble_eq_true rfl, Nat.le_of_ble_eq_true rfl⟩ (Nat.le_of_ble_eq_true rfl) rfl ⟨Nat.le_of_ble_eq_true rfl, Nat.le_of_ble_eq_true rfl⟩ rfl rfl dL_without_5 (fun k9 st9 hp9 => ?_) (fun r1 s1 hp hn1 => ?_)
  · subst hp9
    try dsimp only [Sum.elim_inl] at h
    by_cases c9 : k9 = 1
    · subst c9
      rw [if_pos rfl] at h
      refine r_catch G [] ⟨0, 17, 20, 13⟩ [] (by rw [X9.2.1]; rfl) (fun _ hz => nomatch hz) (by decide) (by decide) mL_without_k13 ((hC _ _ _ G.ev).c1) (fun q => ?_)
      refine r_astore G (lv' := []) [] rfl (by decide) dL_without_20 ?_
      refine r_iconst G (v := 1) (by decide) dL_without_22 ?_
      exact hret _ _ _ _ _ _ dL_without_23 (Option.some.inj h).symm rfl (Nat.le_of_ble_eq_true rfl) (Nat.le_of_ble_eq_true rfl)
    · rw [if_neg c9] at h
      cases h
  subst hp
  try dsimp only [Sum.elim_inr] at h
  refine r_if_eq G (tgt := 15) dL_without_8 (by decide) (fun c => ?_) (fun c => ?_)
  · rw [if_pos c] at h
    refine r_lconst G (v := 0) (by decide) dL_without_15 ?_
    refine r_outst G dL_without_16 ?_
    refine r_goto G (tgt := 24) dL_without_17 (by decide) ?_
    refine r_iconst G (v := 0) (by decide) dL_without_24 ?_
    exact hret _ _ _ _ _ _ dL_without_25 (Option.some.inj h).symm rfl (Nat.le_of_ble_eq_true rfl) (Nat.le_of_ble_eq_true rfl)
  · rw [if_neg c] at h
    refine r_lconst G (v := 1) (by decide) dL_without_11 ?_
    refine r_goto G (tgt := 16) dL_without_12 (by decide) ?_
    refine r_outst G dL_without_16 ?_
    refine r_goto G (tgt := 24) dL_without_17 (by decide) ?_
    refine r_iconst G (v := 0) (by decide) dL_without_24 ?_
    exact hret _ _ _ _ _ _ dL_without_25 (Option.some.inj h).symm rfl (Nat.le_of_ble_eq_true rfl) (Nat.le_of_ble_eq_true rfl)

abbrev rmL_copy : Room := rmLw
theorem hdX7_copy : yX7_copy.cls = RX7 ∧ yX7_copy.cls ≠ "java/lang/invoke/MethodHandle" ∧ yX7_copy.cls ≠ "java/lang/invoke/VarHandle" ∧ (parseMethodDescriptor yX7_copy.desc).map (fun d => d.parameters.length) = some 2 := by decide +kernel
set_option maxRecDepth 20000 in
theorem mL_copy_k13 : Cond.classLink RL 13 "java/lang/IndexOutOfBoundsException" ∈ wsL_copy := by decide +kernel
set_option maxHeartbeats 4000000 in
set_option maxRecDepth 100000 in
theorem qL_copy {E : evT} {l : Launch} {D : va_G} {ad bd : Nat → Nat} {qo : Nat} {κ : Nat → ClassId} (hE : EvOk E) (hT : TOk E) (hfl : l.stackTraces = false) (hC : COk E) (p1 : Int32) (p2 : Int32) (s : lS) {o : ((Nat × lS) ⊕ (Int32 × lS))} (h : fL_copy p1 p2 s = some o) : Xi l yL_copy wsL_copy rmL_copy (lW ad bd κ qo) E D (tyA κ) .int [.ref (ad 55), .int p1, .int p2, .ref qo] s (fun r s2 => o = .inr (r, s2)) (fun e s2 => o = .inl (e, s2)) := by
  rw [fL_copy] at h
  refine s_xiH (hh := [(0, 10, 13, 13)]) (cc := cL_copy) (nL := 5) (own := RL) hE (lW_WA ad bd κ qo) (by decide) rfl rfl (Nat.le_of_ble_eq_true rfl) (fun Γ Qc G X9 hret => ?_)
  refine r_aload_n G 3 rfl rfl dL_copy_0 ?_
  refine r_iconst G (v := 0) (by decide) dL_copy_1 ?_
  refine r_aload_n G 0 rfl rfl dL_copy_2 ?_
  refine r_iload_n G 1 rfl rfl dL_copy_3 ?_
  refine r_iload_n G 2 rfl rfl dL_copy_4 ?_
  obtain ⟨o1, e1, h⟩ := ob h
  refine e_callVix G (fun x9 : cS => (x9, s.2.1, s.2.2)) (fun x9 => lW_c ad bd κ qo x9 _ _) rfl [.int p1, .int p2] (qX7_copy hE hT hfl p1 p2 _ e1) ⟨55, 7, _, _, rfl, (lw_SC ad bd κ qo _), rfl⟩ gL_copy_X7_copy rfl hdX7_copy ⟨Nat.le_of_ble_eq_true rfl, Nat.le_of_ble_eq_true rfl⟩ (Nat.le_of_ble_eq_true rfl) rfl ⟨Nat.le_of_ble_eq_true rfl, Nat.le_of_ble_eq_true rfl⟩ rfl rfl dL_copy_5 (fun k9 st9 hp9 => ?_) (fun r1 s1 hp hn1 => ?_)
  · subst hp9
    try dsimp only [Sum.elim_inl] at h
    by_cases c9 : k9 = 1
    · subst c9
      rw [if_pos rfl] at h
      refine r_catch G [] ⟨0, 10, 13, 13⟩ [] (by rw [X9.2.1]; rfl) (fun _ hz => nomatch hz) (by decide) (by decide) mL_copy_k13 ((hC _ _ _ G.ev).c1) (fun q => ?_)
      refine r_astore G (lv' := []) [] rfl (by decide) dL_copy_13 ?_
      refine r_iconst G (v := 1) (by decide) dL_copy_15 ?_
      exact hret _ _ _ _ _ _ dL_copy_16 (Option.some.inj h).symm rfl (Nat.le_of_ble_eq_true rfl) (Nat.le_of_ble_eq_true rfl)
    · rw [if_neg c9] at h
      cases h
  subst hp
  try dsimp only [Sum.elim_inr] at h
  refine r_i2l G dL_copy_8 ?_
  refine r_outst G dL_copy_9 ?_
  refine r_goto G (tgt := 17) dL_copy_10 (by decide) ?_
  refine r_iconst G (v := 0) (by decide) dL_copy_17 ?_
  exact hret _ _ _ _ _ _ dL_copy_18 (Option.some.inj h).symm rfl (Nat.le_of_ble_eq_true rfl) (Nat.le_of_ble_eq_true rfl)

abbrev rmL_sieve : Room := rmLw
theorem hdX7_sieve : yX7_sieve.cls = RX7 ∧ yX7_sieve.cls ≠ "java/lang/invoke/MethodHandle" ∧ yX7_sieve.cls ≠ "java/lang/invoke/VarHandle" ∧ (parseMethodDescriptor yX7_sieve.desc).map (fun d => d.parameters.length) = some 3 := by decide +kernel
set_option maxRecDepth 20000 in
theorem mL_sieve_k13 : Cond.classLink RL 13 "java/lang/IndexOutOfBoundsException" ∈ wsL_sieve := by decide +kernel
set_option maxHeartbeats 4000000 in
set_option maxRecDepth 100000 in
theorem qL_sieve {E : evT} {l : Launch} {D : va_G} {ad bd : Nat → Nat} {qo : Nat} {κ : Nat → ClassId} (hE : EvOk E) (hT : TOk E) (hfl : l.stackTraces = false) (hC : COk E) (p1 : Int32) (p2 : Int32) (p3 : Int32) (s : lS) {o : ((Nat × lS) ⊕ (Int32 × lS))} (h : fL_sieve p1 p2 p3 s = some o) : Xi l yL_sieve wsL_sieve rmL_sieve (lW ad bd κ qo) E D (tyA κ) .int [.ref (ad 55), .int p1, .int p2, .int p3, .ref qo] s (fun r s2 => o = .inr (r, s2)) (fun e s2 => o = .inl (e, s2)) := by
  rw [fL_sieve] at h
  refine s_xiH (hh := [(0, 12, 15, 13), (0, 12, 19, 15)]) (cc := cL_sieve) (nL := 6) (own := RL) hE (lW_WA ad bd κ qo) (by decide) rfl rfl (Nat.le_of_ble_eq_true rfl) (fun Γ Qc G X9 hret => ?_)
  refine r_aload G 4 rfl dL_sieve_0 ?_
  refine r_iconst G (v := 0) (by decide) dL_sieve_2 ?_
  refine r_aload_n G 0 rfl rfl dL_sieve_3 ?_
  refine r_iload_n G 1 rfl rfl dL_sieve_4 ?_
  refine r_iload_n G 2 rfl rfl dL_sieve_5 ?_
  refine r_iload_n G 3 rfl rfl dL_sieve_6 ?_
  obtain ⟨o1, e1, h⟩ := ob h
  refine e_callVix G (fun x9 : cS => (x9, s.2.1, s.2.2)) (fun x9 => lW_c ad bd κ qo x9 _ _) rfl [.int p1, .int p2, .int p3] (qX7_sieve hE hT hfl p1 p2 p3 _ e1) ⟨55, 7, _, _, rfl, (lw_SC ad bd κ qo _), rfl⟩ gL_sieve_X7_sieve rfl hdX7_sieve ⟨Nat.le_of_ble_eq_true rfl, Nat.le_of_ble_eq_true rfl⟩ (Nat.le_of_ble_eq_true rfl) rfl ⟨Nat.le_of_ble_eq_true rfl, Nat.le_of_ble_eq_true rfl⟩ rfl rfl dL_sieve_7 (fun k9 st9 hp9 => ?_) (fun r1 s1 hp hn1 => ?_)
  · subst hp9
    try dsimp only [Sum.elim_inl] at h
    by_cases c9 : k9 = 1
    · subst c9
      rw [if_pos rfl] at h
      refine r_catch G [] ⟨0, 12, 15, 13⟩ [⟨0, 12, 19, 15⟩] (by rw [X9.2.1]; rfl) (fun _ hz => nomatch hz) (by decide) (by decide) mL_sieve_k13 ((hC _ _ _ G.ev).c1) (fun q => ?_)
      refine r_astore G (lv' := []) [] rfl (by decide) dL_sieve_15 ?_
      refine r_iconst G (v := 1) (by decide) dL_sieve_17 ?_
      exact hret _ _ _ _ _ _ dL_sieve_18 (Option.some.inj h).symm rfl (Nat.le_of_ble_eq_true rfl) (Nat.le_of_ble_eq_true rfl)
    · rw [if_neg c9] at h
      by_cases c9 : k9 = 2
      · subst c9
        rw [if_pos rfl] at h
        refine r_catchL G [⟨0, 12, 15, 13⟩] ⟨0, 12, 19, 15⟩ [] (by rw [X9.2.1]; rfl) (fun z hz => by have hz := List.mem_singleton.mp hz; subst hz; exact Or.inr ⟨by decide, _, mL_sieve_k13, (hC _ _ _ G.ev).n21⟩) (by decide) (by decide) ((hC _ _ _ G.ev).l15) ((hC _ _ _ G.ev).c2) (fun q => ?_)
        refine r_astore G (lv' := []) [] rfl (by decide) dL_sieve_19 ?_
        refine r_iconst G (v := 2) (by decide) dL_sieve_21 ?_
        exact hret _ _ _ _ _ _ dL_sieve_22 (Option.some.inj h).symm rfl (Nat.le_of_ble_eq_true rfl) (Nat.le_of_ble_eq_true rfl)
      · rw [if_neg c9] at h
        cases h
  subst hp
  try dsimp only [Sum.elim_inr] at h
  refine r_i2l G dL_sieve_10 ?_
  refine r_outst G dL_sieve_11 ?_
  refine r_goto G (tgt := 23) dL_sieve_12 (by decide) ?_
  refine r_iconst G (v := 0) (by decide) dL_sieve_23 ?_
  exact hret _ _ _ _ _ _ dL_sieve_24 (Option.some.inj h).symm rfl (Nat.le_of_ble_eq_true rfl) (Nat.le_of_ble_eq_true rfl)

abbrev rmL_isWithin : Room := rmLw
theorem hdX7_isWithin : yX7_isWithin.cls = RX7 ∧ yX7_isWithin.cls ≠ "java/lang/invoke/MethodHandle" ∧ yX7_isWithin.cls ≠ "java/lang/invoke/VarHandle" ∧ (parseMethodDescriptor yX7_isWithin.desc).map (fun d => d.parameters.length) = some 2 := by decide +kernel
set_option maxRecDepth 20000 in
theorem mL_isWithin_k13 : Cond.classLink RL 13 "java/lang/IndexOutOfBoundsException" ∈ wsL_isWithin := by decide +kernel
set_option maxHeartbeats 4000000 in
set_option maxRecDepth 100000 in
theorem qL_isWithin {E : evT} {l : Launch} {D : va_G} {ad bd : Nat → Nat} {qo : Nat} {κ : Nat → ClassId} (hE : EvOk E) (hT : TOk E) (hfl : l.stackTraces = false) (hC : COk E) (p1 : Int32) (p2 : Int32) (s : lS) {o : ((Nat × lS) ⊕ (Int32 × lS))} (h : fL_isWithin p1 p2 s = some o) : Xi l yL_isWithin wsL_isWithin rmL_isWithin (lW ad bd κ qo) E D (tyA κ) .int [.ref (ad 55), .int p1, .int p2, .ref qo] s (fun r s2 => o = .inr (r, s2)) (fun e s2 => o = .inl (e, s2)) := by
  rw [fL_isWithin] at h
  refine s_xiH (hh := [(0, 17, 20, 13)]) (cc := cL_isWithin) (nL := 5) (own := RL) hE (lW_WA ad bd κ qo) (by decide) rfl rfl (Nat.le_of_ble_eq_true rfl) (fun Γ Qc G X9 hret => ?_)
  refine r_aload_n G 3 rfl rfl dL_isWithin_0 ?_
  refine r_iconst G (v := 0) (by decide) dL_isWithin_1 ?_
  refine r_aload_n G 0 rfl rfl dL_isWithin_2 ?_
  refine r_iload_n G 1 rfl rfl dL_isWithin_3 ?_
  refine r_iload_n G 2 rfl rfl dL_isWithin_4 ?_
  obtain ⟨o1, e1, h⟩ := ob h
  refine e_callVix G (fun x9 : cS => (x9, s.2.1, s.2.2)) (fun x9 => lW_c ad bd κ qo x9 _ _) rfl [.int p1, .int p2] (qX7_isWithin hE hT hfl p1 p2 _ e1) ⟨55, 7, _, _, rfl, (lw_SC ad bd κ qo _), rfl⟩ gL_isWithin_X7_isWithin rfl hdX7_isWithin ⟨Nat.le_of_ble_eq_true rfl, Nat.le_of_ble_eq_true rfl⟩ (Nat.le_of_ble_eq_true rfl) rfl ⟨Nat.le_of_ble_eq_true rfl, Nat.le_of_ble_eq_true rfl⟩ rfl rfl dL_isWithin_5 (fun k9 st9 hp9 => ?_) (fun r1 s1 hp hn1 => ?_)
  · subst hp9
    try dsimp only [Sum.elim_inl] at h
    by_cases c9 : k9 = 1
    · subst c9
      rw [if_pos rfl] at h
      refine r_catch G [] ⟨0, 17, 20, 13⟩ [] (by rw [X9.2.1]; rfl) (fun _ hz => nomatch hz) (by decide) (by decide) mL_isWithin_k13 ((hC _ _ _ G.ev).c1) (fun q => ?_)
      refine r_astore G (lv' := []) [] rfl (by decide) dL_isWithin_20 ?_
      refine r_iconst G (v := 1) (by decide) dL_isWithin_22 ?_
      exact hret _ _ _ _ _ _ dL_isWithin_23 (Option.some.inj h).symm rfl (Nat.le_of_ble_eq_true rfl) (Nat.le_of_ble_eq_true rfl)
    · rw [if_neg c9] at h
      cases h
  subst hp
  try dsimp only [Sum.elim_inr] at h
  refine r_if_eq G (tgt := 15) dL_isWithin_8 (by decide) (fun c => ?_) (fun c => ?_)
  · rw [if_pos c] at h
    refine r_lconst G (v := 0) (by decide) dL_isWithin_15 ?_
    refine r_outst G dL_isWithin_16 ?_
    refine r_goto G (tgt := 24) dL_isWithin_17 (by decide) ?_
    refine r_iconst G (v := 0) (by decide) dL_isWithin_24 ?_
    exact hret _ _ _ _ _ _ dL_isWithin_25 (Option.some.inj h).symm rfl (Nat.le_of_ble_eq_true rfl) (Nat.le_of_ble_eq_true rfl)
  · rw [if_neg c] at h
    refine r_lconst G (v := 1) (by decide) dL_isWithin_11 ?_
    refine r_goto G (tgt := 16) dL_isWithin_12 (by decide) ?_
    refine r_outst G dL_isWithin_16 ?_
    refine r_goto G (tgt := 24) dL_isWithin_17 (by decide) ?_
    refine r_iconst G (v := 0) (by decide) dL_isWithin_24 ?_
    exact hret _ _ _ _ _ _ dL_isWithin_25 (Option.some.inj h).symm rfl (Nat.le_of_ble_eq_true rfl) (Nat.le_of_ble_eq_true rfl)

abbrev rmL_isApart : Room := rmLw
theorem hdX7_isApart : yX7_isApart.cls = RX7 ∧ yX7_isApart.cls ≠ "java/lang/invoke/MethodHandle" ∧ yX7_isApart.cls ≠ "java/lang/invoke/VarHandle" ∧ (parseMethodDescriptor yX7_isApart.desc).map (fun d => d.parameters.length) = some 2 := by decide +kernel
set_option maxRecDepth 20000 in
theorem mL_isApart_k13 : Cond.classLink RL 13 "java/lang/IndexOutOfBoundsException" ∈ wsL_isApart := by decide +kernel
set_option maxHeartbeats 4000000 in
set_option maxRecDepth 100000 in
theorem qL_isApart {E : evT} {l : Launch} {D : va_G} {ad bd : Nat → Nat} {qo : Nat} {κ : Nat → ClassId} (hE : EvOk E) (hT : TOk E) (hfl : l.stackTraces = false) (hC : COk E) (p1 : Int32) (p2 : Int32) (s : lS) {o : ((Nat × lS) ⊕ (Int32 × lS))} (h : fL_isApart p1 p2 s = some o) : Xi l yL_isApart wsL_isApart rmL_isApart (lW ad bd κ qo) E D (tyA κ) .int [.ref (ad 55), .int p1, .int p2, .ref qo] s (fun r s2 => o = .inr (r, s2)) (fun e s2 => o = .inl (e, s2)) := by
  rw [fL_isApart] at h
  refine s_xiH (hh := [(0, 17, 20, 13)]) (cc := cL_isApart) (nL := 5) (own := RL) hE (lW_WA ad bd κ qo) (by decide) rfl rfl (Nat.le_of_ble_eq_true rfl) (fun Γ Qc G X9 hret => ?_)
  refine r_aload_n G 3 rfl rfl dL_isApart_0 ?_
  refine r_iconst G (v := 0) (by decide) dL_isApart_1 ?_
  refine r_aload_n G 0 rfl rfl dL_isApart_2 ?_
  refine r_iload_n G 1 rfl rfl dL_isApart_3 ?_
  refine r_iload_n G 2 rfl rfl dL_isApart_4 ?_
  obtain ⟨o1, e1, h⟩ := ob h
  refine e_callVix G (fun x9 : cS => (x9, s.2.1, s.2.2)) (fun x9 => lW_c ad bd κ qo x9 _ _) rfl [.int p1, .int p2] (qX7_isApart hE hT hfl p1 p2 _ e1) ⟨55, 7, _, _, rfl, (lw_SC ad bd κ qo _), rfl⟩ gL_isApart_X7_isApart rfl hdX7_isApart ⟨Nat.le_of_ble_eq_true rfl, Nat.le_of_ble_eq_true rfl⟩ (Nat.le_of_ble_eq_true rfl) rfl ⟨Nat.le_of_ble_eq_true rfl, Nat.le_of_ble_eq_true rfl⟩ rfl rfl dL_isApart_5 (fun k9 st9 hp9 => ?_) (fun r1 s1 hp hn1 => ?_)
  · subst hp9
    try dsimp only [Sum.elim_inl] at h
    by_cases c9 : k9 = 1
    · subst c9
      rw [if_pos rfl] at h
      refine r_catch G [] ⟨0, 17, 20, 13⟩ [] (by rw [X9.2.1]; rfl) (fun _ hz => nomatch hz) (by decide) (by decide) mL_isApart_k13 ((hC _ _ _ G.ev).c1) (fun q => ?_)
      refine r_astore G (lv' := []) [] rfl (by decide) dL_isApart_20 ?_
      refine r_iconst G (v := 1) (by decide) dL_isApart_22 ?_
      exact hret _ _ _ _ _ _ dL_isApart_23 (Option.some.inj h).symm rfl (Nat.le_of_ble_eq_true rfl) (Nat.le_of_ble_eq_true rfl)
    · rw [if_neg c9] at h
      cases h
  subst hp
  try dsimp only [Sum.elim_inr] at h
  refine r_if_eq G (tgt := 15) dL_isApart_8 (by decide) (fun c => ?_) (fun c => ?_)
  · rw [if_pos c] at h
    refine r_lconst G (v := 0) (by decide) dL_isApart_15 ?_
    refine r_outst G dL_isApart_16 ?_
    refine r_goto G (tgt := 24) dL_isApart_17 (by decide) ?_
    refine r_iconst G (v := 0) (by decide) dL_isApart_24 ?_
    exact hret _ _ _ _ _ _ dL_isApart_25 (Option.some.inj h).symm rfl (Nat.le_of_ble_eq_true rfl) (Nat.le_of_ble_eq_true rfl)
  · rw [if_neg c] at h
    refine r_lconst G (v := 1) (by decide) dL_isApart_11 ?_
    refine r_goto G (tgt := 16) dL_isApart_12 (by decide) ?_
    refine r_outst G dL_isApart_16 ?_
    refine r_goto G (tgt := 24) dL_isApart_17 (by decide) ?_
    refine r_iconst G (v := 0) (by decide) dL_isApart_24 ?_
    exact hret _ _ _ _ _ _ dL_isApart_25 (Option.some.inj h).symm rfl (Nat.le_of_ble_eq_true rfl) (Nat.le_of_ble_eq_true rfl)

abbrev rmL_isSame : Room := rmLw
theorem hdX7_isSame : yX7_isSame.cls = RX7 ∧ yX7_isSame.cls ≠ "java/lang/invoke/MethodHandle" ∧ yX7_isSame.cls ≠ "java/lang/invoke/VarHandle" ∧ (parseMethodDescriptor yX7_isSame.desc).map (fun d => d.parameters.length) = some 2 := by decide +kernel
set_option maxRecDepth 20000 in
theorem mL_isSame_k13 : Cond.classLink RL 13 "java/lang/IndexOutOfBoundsException" ∈ wsL_isSame := by decide +kernel
set_option maxHeartbeats 4000000 in
set_option maxRecDepth 100000 in
theorem qL_isSame {E : evT} {l : Launch} {D : va_G} {ad bd : Nat → Nat} {qo : Nat} {κ : Nat → ClassId} (hE : EvOk E) (hT : TOk E) (hfl : l.stackTraces = false) (hC : COk E) (p1 : Int32) (p2 : Int32) (s : lS) {o : ((Nat × lS) ⊕ (Int32 × lS))} (h : fL_isSame p1 p2 s = some o) : Xi l yL_isSame wsL_isSame rmL_isSame (lW ad bd κ qo) E D (tyA κ) .int [.ref (ad 55), .int p1, .int p2, .ref qo] s (fun r s2 => o = .inr (r, s2)) (fun e s2 => o = .inl (e, s2)) := by
  rw [fL_isSame] at h
  refine s_xiH (hh := [(0, 17, 20, 13)]) (cc := cL_isSame) (nL := 5) (own := RL) hE (lW_WA ad bd κ qo) (by decide) rfl rfl (Nat.le_of_ble_eq_true rfl) (fun Γ Qc G X9 hret => ?_)
  refine r_aload_n G 3 rfl rfl dL_isSame_0 ?_
  refine r_iconst G (v := 0) (by decide) dL_isSame_1 ?_
  refine r_aload_n G 0 rfl rfl dL_isSame_2 ?_
  refine r_iload_n G 1 rfl rfl dL_isSame_3 ?_
  refine r_iload_n G 2 rfl rfl dL_isSame_4 ?_
  obtain ⟨o1, e1, h⟩ := ob h
  refine e_callVix G (fun x9 : cS => (x9, s.2.1, s.2.2)) (fun x9 => lW_c ad bd κ qo x9 _ _) rfl [.int p1, .int p2] (qX7_isSame hE hT hfl p1 p2 _ e1) ⟨55, 7, _, _, rfl, (lw_SC ad bd κ qo _), rfl⟩ gL_isSame_X7_isSame rfl hdX7_isSame ⟨Nat.le_of_ble_eq_true rfl, Nat.le_of_ble_eq_true rfl⟩ (Nat.le_of_ble_eq_true rfl) rfl ⟨Nat.le_of_ble_eq_true rfl, Nat.le_of_ble_eq_true rfl⟩ rfl rfl dL_isSame_5 (fun k9 st9 hp9 => ?_) (fun r1 s1 hp hn1 => ?_)
  · subst hp9
    try dsimp only [Sum.elim_inl] at h
    by_cases c9 : k9 = 1
    · subst c9
      rw [if_pos rfl] at h
      refine r_catch G [] ⟨0, 17, 20, 13⟩ [] (by rw [X9.2.1]; rfl) (fun _ hz => nomatch hz) (by decide) (by decide) mL_isSame_k13 ((hC _ _ _ G.ev).c1) (fun q => ?_)
      refine r_astore G (lv' := []) [] rfl (by decide) dL_isSame_20 ?_
      refine r_iconst G (v := 1) (by decide) dL_isSame_22 ?_
      exact hret _ _ _ _ _ _ dL_isSame_23 (Option.some.inj h).symm rfl (Nat.le_of_ble_eq_true rfl) (Nat.le_of_ble_eq_true rfl)
    · rw [if_neg c9] at h
      cases h
  subst hp
  try dsimp only [Sum.elim_inr] at h
  refine r_if_eq G (tgt := 15) dL_isSame_8 (by decide) (fun c => ?_) (fun c => ?_)
  · rw [if_pos c] at h
    refine r_lconst G (v := 0) (by decide) dL_isSame_15 ?_
    refine r_outst G dL_isSame_16 ?_
    refine r_goto G (tgt := 24) dL_isSame_17 (by decide) ?_
    refine r_iconst G (v := 0) (by decide) dL_isSame_24 ?_
    exact hret _ _ _ _ _ _ dL_isSame_25 (Option.some.inj h).symm rfl (Nat.le_of_ble_eq_true rfl) (Nat.le_of_ble_eq_true rfl)
  · rw [if_neg c] at h
    refine r_lconst G (v := 1) (by decide) dL_isSame_11 ?_
    refine r_goto G (tgt := 16) dL_isSame_12 (by decide) ?_
    refine r_outst G dL_isSame_16 ?_
    refine r_goto G (tgt := 24) dL_isSame_17 (by decide) ?_
    refine r_iconst G (v := 0) (by decide) dL_isSame_24 ?_
    exact hret _ _ _ _ _ _ dL_isSame_25 (Option.some.inj h).symm rfl (Nat.le_of_ble_eq_true rfl) (Nat.le_of_ble_eq_true rfl)

abbrev rmL_vote : Room := rmLw
theorem hdX7_vote : yX7_vote.cls = RX7 ∧ yX7_vote.cls ≠ "java/lang/invoke/MethodHandle" ∧ yX7_vote.cls ≠ "java/lang/invoke/VarHandle" ∧ (parseMethodDescriptor yX7_vote.desc).map (fun d => d.parameters.length) = some 1 := by decide +kernel
set_option maxRecDepth 20000 in
theorem mL_vote_k15 : Cond.classLink RL 15 "java/lang/IllegalArgumentException" ∈ wsL_vote := by decide +kernel
set_option maxHeartbeats 4000000 in
set_option maxRecDepth 100000 in
theorem qL_vote {E : evT} {l : Launch} {D : va_G} {ad bd : Nat → Nat} {qo : Nat} {κ : Nat → ClassId} (hE : EvOk E) (hT : TOk E) (hfl : l.stackTraces = false) (hC : COk E) (p1 : Int32) (s : lS) {o : ((Nat × lS) ⊕ (Int32 × lS))} (h : fL_vote p1 s = some o) : Xi l yL_vote wsL_vote rmL_vote (lW ad bd κ qo) E D (tyA κ) .int [.ref (ad 55), .int p1, .ref qo] s (fun r s2 => o = .inr (r, s2)) (fun e s2 => o = .inl (e, s2)) := by
  rw [fL_vote] at h
  refine s_xiH (hh := [(0, 9, 12, 15)]) (cc := cL_vote) (nL := 4) (own := RL) hE (lW_WA ad bd κ qo) (by decide) rfl rfl (Nat.le_of_ble_eq_true rfl) (fun Γ Qc G X9 hret => ?_)
  refine r_aload_n G 2 rfl rfl dL_vote_0 ?_
  refine r_iconst G (v := 0) (by decide) dL_vote_1 ?_
  refine r_aload_n G 0 rfl rfl dL_vote_2 ?_
  refine r_iload_n G 1 rfl rfl dL_vote_3 ?_
  obtain ⟨o1, e1, h⟩ := ob h
  refine e_callVix G (fun x9 : cS => (x9, s.2.1, s.2.2)) (fun x9 => lW_c ad bd κ qo x9 _ _) rfl [.int p1] (qX7_vote hE hT hfl p1 _ e1) ⟨55, 7, _, _, rfl, (lw_SC ad bd κ qo _), rfl⟩ gL_vote_X7_vote rfl hdX7_vote ⟨Nat.le_of_ble_eq_true rfl, Nat.le_of_ble_eq_true rfl⟩ (Nat.le_of_ble_eq_true rfl) rfl ⟨Nat.le_of_ble_eq_true rfl, Nat.le_of_ble_eq_true rfl⟩ rfl rfl dL_vote_4 (fun k9 st9 hp9 => ?_) (fun r1 s1 hp hn1 => ?_)
  · subst hp9
    try dsimp only [Sum.elim_inl] at h
    by_cases c9 : k9 = 2
    · subst c9
      rw [if_pos rfl] at h
      refine r_catch G [] ⟨0, 9, 12, 15⟩ [] (by rw [X9.2.1]; rfl) (fun _ hz => nomatch hz) (by decide) (by decide) mL_vote_k15 ((hC _ _ _ G.ev).c2) (fun q => ?_)
      refine r_astore_n G (lv' := []) [] rfl rfl (by decide) dL_vote_12 ?_
      refine r_iconst G (v := 1) (by decide) dL_vote_13 ?_
      exact hret _ _ _ _ _ _ dL_vote_14 (Option.some.inj h).symm rfl (Nat.le_of_ble_eq_true rfl) (Nat.le_of_ble_eq_true rfl)
    · rw [if_neg c9] at h
      cases h
  subst hp
  try dsimp only [Sum.elim_inr] at h
  refine r_i2l G dL_vote_7 ?_
  refine r_outst G dL_vote_8 ?_
  refine r_goto G (tgt := 15) dL_vote_9 (by decide) ?_
  refine r_iconst G (v := 0) (by decide) dL_vote_15 ?_
  exact hret _ _ _ _ _ _ dL_vote_16 (Option.some.inj h).symm rfl (Nat.le_of_ble_eq_true rfl) (Nat.le_of_ble_eq_true rfl)

abbrev rmL_elect : Room := rmLw
theorem hdX7_elect : yX7_elect.cls = RX7 ∧ yX7_elect.cls ≠ "java/lang/invoke/MethodHandle" ∧ yX7_elect.cls ≠ "java/lang/invoke/VarHandle" ∧ (parseMethodDescriptor yX7_elect.desc).map (fun d => d.parameters.length) = some 2 := by decide +kernel
set_option maxRecDepth 20000 in
theorem mL_elect_k13 : Cond.classLink RL 13 "java/lang/IndexOutOfBoundsException" ∈ wsL_elect := by decide +kernel
set_option maxHeartbeats 4000000 in
set_option maxRecDepth 100000 in
theorem qL_elect {E : evT} {l : Launch} {D : va_G} {ad bd : Nat → Nat} {qo : Nat} {κ : Nat → ClassId} (hE : EvOk E) (hT : TOk E) (hfl : l.stackTraces = false) (hC : COk E) (p1 : Int32) (p2 : Int32) (s : lS) {o : ((Nat × lS) ⊕ (Int32 × lS))} (h : fL_elect p1 p2 s = some o) : Xi l yL_elect wsL_elect rmL_elect (lW ad bd κ qo) E D (tyA κ) .int [.ref (ad 55), .int p1, .int p2, .ref qo] s (fun r s2 => o = .inr (r, s2)) (fun e s2 => o = .inl (e, s2)) := by
  rw [fL_elect] at h
  refine s_xiH (hh := [(0, 10, 13, 13), (0, 10, 17, 15)]) (cc := cL_elect) (nL := 5) (own := RL) hE (lW_WA ad bd κ qo) (by decide) rfl rfl (Nat.le_of_ble_eq_true rfl) (fun Γ Qc G X9 hret => ?_)
  refine r_aload_n G 3 rfl rfl dL_elect_0 ?_
  refine r_iconst G (v := 0) (by decide) dL_elect_1 ?_
  refine r_aload_n G 0 rfl rfl dL_elect_2 ?_
  refine r_iload_n G 1 rfl rfl dL_elect_3 ?_
  refine r_iload_n G 2 rfl rfl dL_elect_4 ?_
  obtain ⟨o1, e1, h⟩ := ob h
  refine e_callVix G (fun x9 : cS => (x9, s.2.1, s.2.2)) (fun x9 => lW_c ad bd κ qo x9 _ _) rfl [.int p1, .int p2] (qX7_elect hE hT hfl p1 p2 _ e1) ⟨55, 7, _, _, rfl, (lw_SC ad bd κ qo _), rfl⟩ gL_elect_X7_elect rfl hdX7_elect ⟨Nat.le_of_ble_eq_true rfl, Nat.le_of_ble_eq_true rfl⟩ (Nat.le_of_ble_eq_true rfl) rfl ⟨Nat.le_of_ble_eq_true rfl, Nat.le_of_ble_eq_true rfl⟩ rfl rfl dL_elect_5 (fun k9 st9 hp9 => ?_) (fun r1 s1 hp hn1 => ?_)
  · subst hp9
    try dsimp only [Sum.elim_inl] at h
    by_cases c9 : k9 = 1
    · subst c9
      rw [if_pos rfl] at h
      refine r_catch G [] ⟨0, 10, 13, 13⟩ [⟨0, 10, 17, 15⟩] (by rw [X9.2.1]; rfl) (fun _ hz => nomatch hz) (by decide) (by decide) mL_elect_k13 ((hC _ _ _ G.ev).c1) (fun q => ?_)
      refine r_astore G (lv' := []) [] rfl (by decide) dL_elect_13 ?_
      refine r_iconst G (v := 1) (by decide) dL_elect_15 ?_
      exact hret _ _ _ _ _ _ dL_elect_16 (Option.some.inj h).symm rfl (Nat.le_of_ble_eq_true rfl) (Nat.le_of_ble_eq_true rfl)
    · rw [if_neg c9] at h
      by_cases c9 : k9 = 2
      · subst c9
        rw [if_pos rfl] at h
        refine r_catchL G [⟨0, 10, 13, 13⟩] ⟨0, 10, 17, 15⟩ [] (by rw [X9.2.1]; rfl) (fun z hz => by have hz := List.mem_singleton.mp hz; subst hz; exact Or.inr ⟨by decide, _, mL_elect_k13, (hC _ _ _ G.ev).n21⟩) (by decide) (by decide) ((hC _ _ _ G.ev).l15) ((hC _ _ _ G.ev).c2) (fun q => ?_)
        refine r_astore G (lv' := []) [] rfl (by decide) dL_elect_17 ?_
        refine r_iconst G (v := 2) (by decide) dL_elect_19 ?_
        exact hret _ _ _ _ _ _ dL_elect_20 (Option.some.inj h).symm rfl (Nat.le_of_ble_eq_true rfl) (Nat.le_of_ble_eq_true rfl)
      · rw [if_neg c9] at h
        cases h
  subst hp
  try dsimp only [Sum.elim_inr] at h
  refine r_i2l G dL_elect_8 ?_
  refine r_outst G dL_elect_9 ?_
  refine r_goto G (tgt := 21) dL_elect_10 (by decide) ?_
  refine r_iconst G (v := 0) (by decide) dL_elect_21 ?_
  exact hret _ _ _ _ _ _ dL_elect_22 (Option.some.inj h).symm rfl (Nat.le_of_ble_eq_true rfl) (Nat.le_of_ble_eq_true rfl)

abbrev rmL_keep : Room := rmLw
theorem hdX7_keep : yX7_keep.cls = RX7 ∧ yX7_keep.cls ≠ "java/lang/invoke/MethodHandle" ∧ yX7_keep.cls ≠ "java/lang/invoke/VarHandle" ∧ (parseMethodDescriptor yX7_keep.desc).map (fun d => d.parameters.length) = some 1 := by decide +kernel
set_option maxRecDepth 20000 in
theorem mL_keep_k13 : Cond.classLink RL 13 "java/lang/IndexOutOfBoundsException" ∈ wsL_keep := by decide +kernel
set_option maxHeartbeats 4000000 in
set_option maxRecDepth 100000 in
theorem qL_keep {E : evT} {l : Launch} {D : va_G} {ad bd : Nat → Nat} {qo : Nat} {κ : Nat → ClassId} (hE : EvOk E) (hT : TOk E) (hfl : l.stackTraces = false) (hC : COk E) (p1 : Int32) (s : lS) {o : ((Nat × lS) ⊕ (Int32 × lS))} (h : fL_keep p1 s = some o) : Xi l yL_keep wsL_keep rmL_keep (lW ad bd κ qo) E D (tyA κ) .int [.ref (ad 55), .int p1, .ref qo] s (fun r s2 => o = .inr (r, s2)) (fun e s2 => o = .inl (e, s2)) := by
  rw [fL_keep] at h
  refine s_xiH (hh := [(0, 16, 19, 13), (0, 16, 22, 84)]) (cc := cL_keep) (nL := 4) (own := RL) hE (lW_WA ad bd κ qo) (by decide) rfl rfl (Nat.le_of_ble_eq_true rfl) (fun Γ Qc G X9 hret => ?_)
  refine r_aload_n G 2 rfl rfl dL_keep_0 ?_
  refine r_iconst G (v := 0) (by decide) dL_keep_1 ?_
  refine r_aload_n G 0 rfl rfl dL_keep_2 ?_
  refine r_iload_n G 1 rfl rfl dL_keep_3 ?_
  obtain ⟨o1, e1, h⟩ := ob h
  refine e_callVix G (fun x9 : cS => (x9, s.2.1, s.2.2)) (fun x9 => lW_c ad bd κ qo x9 _ _) rfl [.int p1] (qX7_keep hE hT hfl p1 _ e1) ⟨55, 7, _, _, rfl, (lw_SC ad bd κ qo _), rfl⟩ gL_keep_X7_keep rfl hdX7_keep ⟨Nat.le_of_ble_eq_true rfl, Nat.le_of_ble_eq_true rfl⟩ (Nat.le_of_ble_eq_true rfl) rfl ⟨Nat.le_of_ble_eq_true rfl, Nat.le_of_ble_eq_true rfl⟩ rfl rfl dL_keep_4 (fun k9 st9 hp9 => ?_) (fun r1 s1 hp hn1 => ?_)
  · subst hp9
    try dsimp only [Sum.elim_inl] at h
    by_cases c9 : k9 = 1
    · subst c9
      rw [if_pos rfl] at h
      refine r_catch G [] ⟨0, 16, 19, 13⟩ [⟨0, 16, 22, 84⟩] (by rw [X9.2.1]; rfl) (fun _ hz => nomatch hz) (by decide) (by decide) mL_keep_k13 ((hC _ _ _ G.ev).c1) (fun q => ?_)
      refine r_astore_n G (lv' := []) [] rfl rfl (by decide) dL_keep_19 ?_
      refine r_iconst G (v := 1) (by decide) dL_keep_20 ?_
      exact hret _ _ _ _ _ _ dL_keep_21 (Option.some.inj h).symm rfl (Nat.le_of_ble_eq_true rfl) (Nat.le_of_ble_eq_true rfl)
    · rw [if_neg c9] at h
      by_cases c9 : k9 = 4
      · subst c9
        rw [if_pos rfl] at h
        refine r_catchL G [⟨0, 16, 19, 13⟩] ⟨0, 16, 22, 84⟩ [] (by rw [X9.2.1]; rfl) (fun z hz => by have hz := List.mem_singleton.mp hz; subst hz; exact Or.inr ⟨by decide, _, mL_keep_k13, (hC _ _ _ G.ev).n41⟩) (by decide) (by decide) ((hC _ _ _ G.ev).l84) ((hC _ _ _ G.ev).c4) (fun q => ?_)
        refine r_astore_n G (lv' := []) [] rfl rfl (by decide) dL_keep_22 ?_
        refine r_iconst G (v := 2) (by decide) dL_keep_23 ?_
        exact hret _ _ _ _ _ _ dL_keep_24 (Option.some.inj h).symm rfl (Nat.le_of_ble_eq_true rfl) (Nat.le_of_ble_eq_true rfl)
      · rw [if_neg c9] at h
        cases h
  subst hp
  try dsimp only [Sum.elim_inr] at h
  refine r_if_eq G (tgt := 14) dL_keep_7 (by decide) (fun c => ?_) (fun c => ?_)
  · rw [if_pos c] at h
    refine r_lconst G (v := 0) (by decide) dL_keep_14 ?_
    refine r_outst G dL_keep_15 ?_
    refine r_goto G (tgt := 25) dL_keep_16 (by decide) ?_
    refine r_iconst G (v := 0) (by decide) dL_keep_25 ?_
    exact hret _ _ _ _ _ _ dL_keep_26 (Option.some.inj h).symm rfl (Nat.le_of_ble_eq_true rfl) (Nat.le_of_ble_eq_true rfl)
  · rw [if_neg c] at h
    refine r_lconst G (v := 1) (by decide) dL_keep_10 ?_
    refine r_goto G (tgt := 15) dL_keep_11 (by decide) ?_
    refine r_outst G dL_keep_15 ?_
    refine r_goto G (tgt := 25) dL_keep_16 (by decide) ?_
    refine r_iconst G (v := 0) (by decide) dL_keep_25 ?_
    exact hret _ _ _ _ _ _ dL_keep_26 (Option.some.inj h).symm rfl (Nat.le_of_ble_eq_true rfl) (Nat.le_of_ble_eq_true rfl)

abbrev rmL_drop : Room := rmLw
theorem hdX7_drop : yX7_drop.cls = RX7 ∧ yX7_drop.cls ≠ "java/lang/invoke/MethodHandle" ∧ yX7_drop.cls ≠ "java/lang/invoke/VarHandle" ∧ (parseMethodDescriptor yX7_drop.desc).map (fun d => d.parameters.length) = some 1 := by decide +kernel
set_option maxRecDepth 20000 in
theorem mL_drop_k13 : Cond.classLink RL 13 "java/lang/IndexOutOfBoundsException" ∈ wsL_drop := by decide +kernel
set_option maxHeartbeats 4000000 in
set_option maxRecDepth 100000 in
theorem qL_drop {E : evT} {l : Launch} {D : va_G} {ad bd : Nat → Nat} {qo : Nat} {κ : Nat → ClassId} (hE : EvOk E) (hT : TOk E) (hfl : l.stackTraces = false) (hC : COk E) (p1 : Int32) (s : lS) {o : ((Nat × lS) ⊕ (Int32 × lS))} (h : fL_drop p1 s = some o) : Xi l yL_drop wsL_drop rmL_drop (lW ad bd κ qo) E D (tyA κ) .int [.ref (ad 55), .int p1, .ref qo] s (fun r s2 => o = .inr (r, s2)) (fun e s2 => o = .inl (e, s2)) := by
  rw [fL_drop] at h
  refine s_xiH (hh := [(0, 16, 19, 13)]) (cc := cL_drop) (nL := 4) (own := RL) hE (lW_WA ad bd κ qo) (by decide) rfl rfl (Nat.le_of_ble_eq_true rfl) (fun Γ Qc G X9 hret => ?_)
  refine r_aload_n G 2 rfl rfl dL_drop_0 ?_
  refine r_iconst G (v := 0) (by decide) dL_drop_1 ?_
  refine r_aload_n G 0 rfl rfl dL_drop_2 ?_
  refine r_iload_n G 1 rfl rfl dL_drop_3 ?_
  obtain ⟨o1, e1, h⟩ := ob h
  refine e_callVix G (fun x9 : cS => (x9, s.2.1, s.2.2)) (fun x9 => lW_c ad bd κ qo x9 _ _) rfl [.int p1] (qX7_drop hE hT hfl p1 _ e1) ⟨55, 7, _, _, rfl, (lw_SC ad bd κ qo _), rfl⟩ gL_drop_X7_drop rfl hdX7_drop ⟨Nat.le_of_ble_eq_true rfl, Nat.le_of_ble_eq_true rfl⟩ (Nat.le_of_ble_eq_true rfl) rfl ⟨Nat.le_of_ble_eq_true rfl, Nat.le_of_ble_eq_true rfl⟩ rfl rfl dL_drop_4 (fun k9 st9 hp9 => ?_) (fun r1 s1 hp hn1 => ?_)
  · subst hp9
    try dsimp only [Sum.elim_inl] at h
    by_cases c9 : k9 = 1
    · subst c9
      rw [if_pos rfl] at h
      refine r_catch G [] ⟨0, 16, 19, 13⟩ [] (by rw [X9.2.1]; rfl) (fun _ hz => nomatch hz) (by decide) (by decide) mL_drop_k13 ((hC _ _ _ G.ev).c1) (fun q => ?_)
      refine r_astore_n G (lv' := []) [] rfl rfl (by decide) dL_drop_19 ?_
      refine r_iconst G (v := 1) (by decide) dL_drop_20 ?_
      exact hret _ _ _ _ _ _ dL_drop_21 (Option.some.inj h).symm rfl (Nat.le_of_ble_eq_true rfl) (Nat.le_of_ble_eq_true rfl)
    · rw [if_neg c9] at h
      cases h
  subst hp
  try dsimp only [Sum.elim_inr] at h
  refine r_if_eq G (tgt := 14) dL_drop_7 (by decide) (fun c => ?_) (fun c => ?_)
  · rw [if_pos c] at h
    refine r_lconst G (v := 0) (by decide) dL_drop_14 ?_
    refine r_outst G dL_drop_15 ?_
    refine r_goto G (tgt := 22) dL_drop_16 (by decide) ?_
    refine r_iconst G (v := 0) (by decide) dL_drop_22 ?_
    exact hret _ _ _ _ _ _ dL_drop_23 (Option.some.inj h).symm rfl (Nat.le_of_ble_eq_true rfl) (Nat.le_of_ble_eq_true rfl)
  · rw [if_neg c] at h
    refine r_lconst G (v := 1) (by decide) dL_drop_10 ?_
    refine r_goto G (tgt := 15) dL_drop_11 (by decide) ?_
    refine r_outst G dL_drop_15 ?_
    refine r_goto G (tgt := 22) dL_drop_16 (by decide) ?_
    refine r_iconst G (v := 0) (by decide) dL_drop_22 ?_
    exact hret _ _ _ _ _ _ dL_drop_23 (Option.some.inj h).symm rfl (Nat.le_of_ble_eq_true rfl) (Nat.le_of_ble_eq_true rfl)

abbrev rmL_isKept : Room := rmLw
theorem hdX7_isKept : yX7_isKept.cls = RX7 ∧ yX7_isKept.cls ≠ "java/lang/invoke/MethodHandle" ∧ yX7_isKept.cls ≠ "java/lang/invoke/VarHandle" ∧ (parseMethodDescriptor yX7_isKept.desc).map (fun d => d.parameters.length) = some 1 := by decide +kernel
set_option maxRecDepth 20000 in
theorem mL_isKept_k13 : Cond.classLink RL 13 "java/lang/IndexOutOfBoundsException" ∈ wsL_isKept := by decide +kernel
set_option maxHeartbeats 4000000 in
set_option maxRecDepth 100000 in
theorem qL_isKept {E : evT} {l : Launch} {D : va_G} {ad bd : Nat → Nat} {qo : Nat} {κ : Nat → ClassId} (hE : EvOk E) (hT : TOk E) (hfl : l.stackTraces = false) (hC : COk E) (p1 : Int32) (s : lS) {o : ((Nat × lS) ⊕ (Int32 × lS))} (h : fL_isKept p1 s = some o) : Xi l yL_isKept wsL_isKept rmL_isKept (lW ad bd κ qo) E D (tyA κ) .int [.ref (ad 55), .int p1, .ref qo] s (fun r s2 => o = .inr (r, s2)) (fun e s2 => o = .inl (e, s2)) := by
  rw [fL_isKept] at h
  refine s_xiH (hh := [(0, 16, 19, 13)]) (cc := cL_isKept) (nL := 4) (own := RL) hE (lW_WA ad bd κ qo) (by decide) rfl rfl (Nat.le_of_ble_eq_true rfl) (fun Γ Qc G X9 hret => ?_)
  refine r_aload_n G 2 rfl rfl dL_isKept_0 ?_
  refine r_iconst G (v := 0) (by decide) dL_isKept_1 ?_
  refine r_aload_n G 0 rfl rfl dL_isKept_2 ?_
  refine r_iload_n G 1 rfl rfl dL_isKept_3 ?_
  obtain ⟨o1, e1, h⟩ := ob h
  refine e_callVix G (fun x9 : cS => (x9, s.2.1, s.2.2)) (fun x9 => lW_c ad bd κ qo x9 _ _) rfl [.int p1] (qX7_isKept hE hT hfl p1 _ e1) ⟨55, 7, _, _, rfl, (lw_SC ad bd κ qo _), rfl⟩ gL_isKept_X7_isKept rfl hdX7_isKept ⟨Nat.le_of_ble_eq_true rfl, Nat.le_of_ble_eq_true rfl⟩ (Nat.le_of_ble_eq_true rfl) rfl ⟨Nat.le_of_ble_eq_true rfl, Nat.le_of_ble_eq_true rfl⟩ rfl rfl dL_isKept_4 (fun k9 st9 hp9 => ?_) (fun r1 s1 hp hn1 => ?_)
  · subst hp9
    try dsimp only [Sum.elim_inl] at h
    by_cases c9 : k9 = 1
    · subst c9
      rw [if_pos rfl] at h
      refine r_catch G [] ⟨0, 16, 19, 13⟩ [] (by rw [X9.2.1]; rfl) (fun _ hz => nomatch hz) (by decide) (by decide) mL_isKept_k13 ((hC _ _ _ G.ev).c1) (fun q => ?_)
      refine r_astore_n G (lv' := []) [] rfl rfl (by decide) dL_isKept_19 ?_
      refine r_iconst G (v := 1) (by decide) dL_isKept_20 ?_
      exact hret _ _ _ _ _ _ dL_isKept_21 (Option.some.inj h).symm rfl (Nat.le_of_ble_eq_true rfl) (Nat.le_of_ble_eq_true rfl)
    · rw [if_neg c9] at h
      cases h
  subst hp
  try dsimp only [Sum.elim_inr] at h
  refine r_if_eq G (tgt := 14) dL_isKept_7 (by decide) (fun c => ?_) (fun c => ?_)
  · rw [if_pos c] at h
    refine r_lconst G (v := 0) (by decide) dL_isKept_14 ?_
    refine r_outst G dL_isKept_15 ?_
    refine r_goto G (tgt := 22) dL_isKept_16 (by decide) ?_
    refine r_iconst G (v := 0) (by decide) dL_isKept_22 ?_
    exact hret _ _ _ _ _ _ dL_isKept_23 (Option.some.inj h).symm rfl (Nat.le_of_ble_eq_true rfl) (Nat.le_of_ble_eq_true rfl)
  · rw [if_neg c] at h
    refine r_lconst G (v := 1) (by decide) dL_isKept_10 ?_
    refine r_goto G (tgt := 15) dL_isKept_11 (by decide) ?_
    refine r_outst G dL_isKept_15 ?_
    refine r_goto G (tgt := 22) dL_isKept_16 (by decide) ?_
    refine r_iconst G (v := 0) (by decide) dL_isKept_22 ?_
    exact hret _ _ _ _ _ _ dL_isKept_23 (Option.some.inj h).symm rfl (Nat.le_of_ble_eq_true rfl) (Nat.le_of_ble_eq_true rfl)

abbrev rmL_placeOf : Room := rmLw
theorem hdX7_placeOf : yX7_placeOf.cls = RX7 ∧ yX7_placeOf.cls ≠ "java/lang/invoke/MethodHandle" ∧ yX7_placeOf.cls ≠ "java/lang/invoke/VarHandle" ∧ (parseMethodDescriptor yX7_placeOf.desc).map (fun d => d.parameters.length) = some 1 := by decide +kernel
set_option maxRecDepth 20000 in
theorem mL_placeOf_k13 : Cond.classLink RL 13 "java/lang/IndexOutOfBoundsException" ∈ wsL_placeOf := by decide +kernel
set_option maxHeartbeats 4000000 in
set_option maxRecDepth 100000 in
theorem qL_placeOf {E : evT} {l : Launch} {D : va_G} {ad bd : Nat → Nat} {qo : Nat} {κ : Nat → ClassId} (hE : EvOk E) (hT : TOk E) (hfl : l.stackTraces = false) (hC : COk E) (p1 : Int32) (s : lS) {o : ((Nat × lS) ⊕ (Int32 × lS))} (h : fL_placeOf p1 s = some o) : Xi l yL_placeOf wsL_placeOf rmL_placeOf (lW ad bd κ qo) E D (tyA κ) .int [.ref (ad 55), .int p1, .ref qo] s (fun r s2 => o = .inr (r, s2)) (fun e s2 => o = .inl (e, s2)) := by
  rw [fL_placeOf] at h
  refine s_xiH (hh := [(0, 9, 12, 13)]) (cc := cL_placeOf) (nL := 4) (own := RL) hE (lW_WA ad bd κ qo) (by decide) rfl rfl (Nat.le_of_ble_eq_true rfl) (fun Γ Qc G X9 hret => ?_)
  refine r_aload_n G 2 rfl rfl dL_placeOf_0 ?_
  refine r_iconst G (v := 0) (by decide) dL_placeOf_1 ?_
  refine r_aload_n G 0 rfl rfl dL_placeOf_2 ?_
  refine r_iload_n G 1 rfl rfl dL_placeOf_3 ?_
  obtain ⟨o1, e1, h⟩ := ob h
  refine e_callVix G (fun x9 : cS => (x9, s.2.1, s.2.2)) (fun x9 => lW_c ad bd κ qo x9 _ _) rfl [.int p1] (qX7_placeOf hE hT hfl p1 _ e1) ⟨55, 7, _, _, rfl, (lw_SC ad bd κ qo _), rfl⟩ gL_placeOf_X7_placeOf rfl hdX7_placeOf ⟨Nat.le_of_ble_eq_true rfl, Nat.le_of_ble_eq_true rfl⟩ (Nat.le_of_ble_eq_true rfl) rfl ⟨Nat.le_of_ble_eq_true rfl, Nat.le_of_ble_eq_true rfl⟩ rfl rfl dL_placeOf_4 (fun k9 st9 hp9 => ?_) (fun r1 s1 hp hn1 => ?_)
  · subst hp9
    try dsimp only [Sum.elim_inl] at h
    by_cases c9 : k9 = 1
    · subst c9
      rw [if_pos rfl] at h
      refine r_catch G [] ⟨0, 9, 12, 13⟩ [] (by rw [X9.2.1]; rfl) (fun _ hz => nomatch hz) (by decide) (by decide) mL_placeOf_k13 ((hC _ _ _ G.ev).c1) (fun q => ?_)
      refine r_astore_n G (lv' := []) [] rfl rfl (by decide) dL_placeOf_12 ?_
      refine r_iconst G (v := 1) (by decide) dL_placeOf_13 ?_
      exact hret _ _ _ _ _ _ dL_placeOf_14 (Option.some.inj h).symm rfl (Nat.le_of_ble_eq_true rfl) (Nat.le_of_ble_eq_true rfl)
    · rw [if_neg c9] at h
      cases h
  subst hp
  try dsimp only [Sum.elim_inr] at h
  refine r_i2l G dL_placeOf_7 ?_
  refine r_outst G dL_placeOf_8 ?_
  refine r_goto G (tgt := 15) dL_placeOf_9 (by decide) ?_
  refine r_iconst G (v := 0) (by decide) dL_placeOf_15 ?_
  exact hret _ _ _ _ _ _ dL_placeOf_16 (Option.some.inj h).symm rfl (Nat.le_of_ble_eq_true rfl) (Nat.le_of_ble_eq_true rfl)
