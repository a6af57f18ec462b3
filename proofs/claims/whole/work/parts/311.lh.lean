abbrev rmL_add : Room := rmLw
theorem hdX7_add : yX7_add.cls = RX7 ∧ yX7_add.cls ≠ "java/lang/invoke/MethodHandle" ∧ yX7_add.cls ≠ "java/lang/invoke/VarHandle" ∧ (parseMethodDescriptor yX7_add.desc).map (fun d => d.parameters.length) = some 2 := by decide +kernel
set_option maxRecDepth 20000 in
theorem mL_add_k13 : Cond.classLink RL 13 "java/lang/IndexOutOfBoundsException" ∈ wsL_add := by decide +kernel
set_option maxHeartbeats 4000000 in
set_option maxRecDepth 100000 in
theorem qL_add {E : evT} {l : Launch} {D : va_G} {ad bd : Nat → Nat} {qo : Nat} {κ : Nat → ClassId} (hE : EvOk E) (hT : TOk E) (hfl : l.stackTraces = false) (hC : COk E) (p1 : Int32) (p2 : Int32) (s : lS) {o : ((Nat × lS) ⊕ (Int32 × lS))} (h : fL_add p1 p2 s = some o) : Xi l yL_add wsL_add rmL_add (lW ad bd κ qo) E D (tyA κ) .int [.ref (ad 55), .int p1, .int p2, .ref qo] s (fun r s2 => o = .inr (r, s2)) (fun e s2 => o = .inl (e, s2)) := by
  rw [fL_add] at h
  refine s_xiH (hh := [(0, 17, 20, 13), (0, 17, 24, 15)]) (cc := cL_add) (nL := 5) (own := RL) hE (lW_WA ad bd κ qo) (by decide) rfl rfl (Nat.le_of_ble_eq_true rfl) (fun Γ Qc G X9 hret => ?_)
  refine r_aload_n G 3 rfl rfl dL_add_0 ?_
  refine r_iconst G (v := 0) (by decide) dL_add_1 ?_
  refine r_aload_n G 0 rfl rfl dL_add_2 ?_
  refine r_iload_n G 1 rfl rfl dL_add_3 ?_
  refine r_iload_n G 2 rfl rfl dL_add_4 ?_
  obtain ⟨o1, e1, h⟩ := ob h
  refine e_callVix G (fun x9 : cS => (x9, s.2.1, s.2.2)) (fun x9 => lW_c ad bd κ qo x9 _ _) rfl [.int p1, .int p2] (qX7_add hE hT hfl p1 p2 _ e1) ⟨55, 7, _, _, rfl, (lw_SC ad bd κ qo _), rfl⟩ gL_add_X7_add rfl hdX7_add ⟨Nat.le_of_ble_eq_true rfl, Nat.le_of_ble_eq_true rfl⟩ (Nat.le_of_ble_eq_true rfl) rfl ⟨Nat.le_of_ble_eq_true rfl, Nat.le_of_ble_eq_true rfl⟩ rfl rfl dL_add_5 (fun k9 st9 hp9 => ?_) (fun r1 s1 hp hn1 => ?_)
  · subst hp9
    try dsimp only [Sum.elim_inl] at h
    by_cases c9 : k9 = 1
    · subst c9
      rw [if_pos rfl] at h
      refine r_catch G [] ⟨0, 17, 20, 13⟩ [⟨0, 17, 24, 15⟩] (by rw [X9.2.1]; rfl) (fun _ hz => nomatch hz) (by decide) (by decide) mL_add_k13 ((hC _ _ _ G.ev).c1) (fun q => ?_)
      refine r_astore G (lv' := []) [] rfl (by decide) dL_add_20 ?_
      refine r_iconst G (v := 1) (by decide) dL_add_22 ?_
      exact hret _ _ _ _ _ _ dL_add_23 (Option.some.inj h).symm rfl (Nat.le_of_ble_eq_true rfl) (Nat.le_of_ble_eq_true rfl)
    · rw [if_neg c9] at h
      by_cases c9 : k9 = 2
      · subst c9
        rw [if_pos rfl] at h
        refine r_catchL G [⟨0, 17, 20, 13⟩] ⟨0, 17, 24, 15⟩ [] (by rw [X9.2.1]; rfl) (fun z hz => by have hz := List.mem_singleton.mp hz; subst hz; exact Or.inr ⟨by decide, _, mL_add_k13, (hC _ _ _ G.ev).n21⟩) (by decide) (by decide) ((hC _ _ _ G.ev).l15) ((hC _ _ _ G.ev).c2) (fun q => ?_)
        refine r_astore G (lv' := []) [] rfl (by decide) dL_add_24 ?_
        refine r_iconst G (v := 2) (by decide) dL_add_26 ?_
        exact hret _ _ _ _ _ _ dL_add_27 (Option.some.inj h).symm rfl (Nat.le_of_ble_eq_true rfl) (Nat.le_of_ble_eq_true rfl)
      · rw [if_neg c9] at h
        cases h
  subst hp
  try dsimp only [Sum.elim_inr] at h
  refine r_if_eq G (tgt := 15) dL_add_8 (by decide) (fun c => ?_) (fun c => ?_)
  · rw [if_pos c] at h
    refine r_lconst G (v := 0) (by decide) dL_add_15 ?_
    refine r_outst G dL_add_16 ?_
    refine r_goto G (tgt := 28) dL_add_17 (by decide) ?_
    refine r_iconst G (v := 0) (by decide) dL_add_28 ?_
    exact hret _ _ _ _ _ _ dL_add_29 (Option.some.inj h).symm rfl (Nat.le_of_ble_eq_true rfl) (Nat.le_of_ble_eq_true rfl)
  · rw [if_neg c] at h
    refine r_lconst G (v := 1) (by decide) dL_add_11 ?_
    refine r_goto G (tgt := 16) dL_add_12 (by decide) ?_
    refine r_outst G dL_add_16 ?_
    refine r_goto G (tgt := 28) dL_add_17 (by decide) ?_
    refine r_iconst G (v := 0) (by decide) dL_add_28 ?_
    exact hret _ _ _ _ _ _ dL_add_29 (Option.some.inj h).symm rfl (Nat.le_of_ble_eq_true rfl) (Nat.le_of_ble_eq_true rfl)

abbrev rmL_remove : Room := rmLw
theorem hdX7_remove : yX7_remove.cls = RX7 ∧ yX7_remove.cls ≠ "java/lang/invoke/MethodHandle" ∧ yX7_remove.cls ≠ "java/lang/invoke/VarHandle" ∧ (parseMethodDescriptor yX7_remove.desc).map (fun d => d.parameters.length) = some 2 := by decide +kernel
set_option maxRecDepth 20000 in
theorem mL_remove_k13 : Cond.classLink RL 13 "java/lang/IndexOutOfBoundsException" ∈ wsL_remove := by decide +kernel
set_option maxHeartbeats 4000000 in
set_option maxRecDepth 100000 in
theorem qL_remove {E : evT} {l : Launch} {D : va_G} {ad bd : Nat → Nat} {qo : Nat} {κ : Nat → ClassId} (hE : EvOk E) (hT : TOk E) (hfl : l.stackTraces = false) (hC : COk E) (p1 : Int32) (p2 : Int32) (s : lS) {o : ((Nat × lS) ⊕ (Int32 × lS))} (h : fL_remove p1 p2 s = some o) : Xi l yL_remove wsL_remove rmL_remove (lW ad bd κ qo) E D (tyA κ) .int [.ref (ad 55), .int p1, .int p2, .ref qo] s (fun r s2 => o = .inr (r, s2)) (fun e s2 => o = .inl (e, s2)) := by
  rw [fL_remove] at h
  refine s_xiH (hh := [(0, 17, 20, 13), (0, 17, 24, 15)]) (cc := cL_remove) (nL := 5) (own := RL) hE (lW_WA ad bd κ qo) (by decide) rfl rfl (Nat.le_of_ble_eq_true rfl) (fun Γ Qc G X9 hret => ?_)
  refine r_aload_n G 3 rfl rfl dL_remove_0 ?_
  refine r_iconst G (v := 0) (by decide) dL_remove_1 ?_
  refine r_aload_n G 0 rfl rfl dL_remove_2 ?_
  refine r_iload_n G 1 rfl rfl dL_remove_3 ?_
  refine r_iload_n G 2 rfl rfl dL_remove_4 ?_
  obtain ⟨o1, e1, h⟩ := ob h
  refine e_callVix G (fun x9 : cS => (x9, s.2.1, s.2.2)) (fun x9 => lW_c ad bd κ qo x9 _ _) rfl [.int p1, .int p2] (qX7_remove hE hT hfl p1 p2 _ e1) ⟨55, 7, _, _, rfl, (lw_SC ad bd κ qo _), rfl⟩ gL_remove_X7_remove rfl hdX7_remove ⟨Nat.le_of_ble_eq_true rfl, Nat.le_of_ble_eq_true rfl⟩ (Nat.le_of_ble_eq_true rfl) rfl ⟨Nat.le_of_ble_eq_true rfl, Nat.le_of_ble_eq_true rfl⟩ rfl rfl dL_remove_5 (fun k9 st9 hp9 => ?_) (fun r1 s1 hp hn1 => ?_)
  · subst hp9
    try dsimp only [Sum.elim_inl] at h
    by_cases c9 : k9 = 1
    · subst c9
      rw [if_pos rfl] at h
      refine r_catch G [] ⟨0, 17, 20, 13⟩ [⟨0, 17, 24, 15⟩] (by rw [X9.2.1]; rfl) (fun _ hz => nomatch hz) (by decide) (by decide) mL_remove_k13 ((hC _ _ _ G.ev).c1) (fun q => ?_)
      refine r_astore G (lv' := []) [] rfl (by decide) dL_remove_20 ?_
      refine r_iconst G (v := 1) (by decide) dL_remove_22 ?_
      exact hret _ _ _ _ _ _ dL_remove_23 (Option.some.inj h).symm rfl (Nat.le_of_ble_eq_true rfl) (Nat.le_of_ble_eq_true rfl)
    · rw [if_neg c9] at h
      by_cases c9 : k9 = 2
      · subst c9
        rw [if_pos rfl] at h
        refine r_catchL G [⟨0, 17, 20, 13⟩] ⟨0, 17, 24, 15⟩ [] (by rw [X9.2.1]; rfl) (fun z hz => by have hz := List.mem_singleton.mp hz; subst hz; exact Or.inr ⟨by decide, _, mL_remove_k13, (hC _ _ _ G.ev).n21⟩) (by decide) (by decide) ((hC _ _ _ G.ev).l15) ((hC _ _ _ G.ev).c2) (fun q => ?_)
        refine r_astore G (lv' := []) [] rfl (by decide) dL_remove_24 ?_
        refine r_iconst G (v := 2) (by decide) dL_remove_26 ?_
        exact hret _ _ _ _ _ _ dL_remove_27 (Option.some.inj h).symm rfl (Nat.le_of_ble_eq_true rfl) (Nat.le_of_ble_eq_true rfl)
      · rw [if_neg c9] at h
        cases h
  subst hp
  try dsimp only [Sum.elim_inr] at h
  refine r_if_eq G (tgt := 15) dL_remove_8 (by decide) (fun c => ?_) (fun c => ?_)
  · rw [if_pos c] at h
    refine r_lconst G (v := 0) (by decide) dL_remove_15 ?_
    refine r_outst G dL_remove_16 ?_
    refine r_goto G (tgt := 28) dL_remove_17 (by decide) ?_
    refine r_iconst G (v := 0) (by decide) dL_remove_28 ?_
    exact hret _ _ _ _ _ _ dL_remove_29 (Option.some.inj h).symm rfl (Nat.le_of_ble_eq_true rfl) (Nat.le_of_ble_eq_true rfl)
  · rw [if_neg c] at h
    refine r_lconst G (v := 1) (by decide) dL_remove_11 ?_
    refine r_goto G (tgt := 16) dL_remove_12 (by decide) ?_
    refine r_outst G dL_remove_16 ?_
    refine r_goto G (tgt := 28) dL_remove_17 (by decide) ?_
    refine r_iconst G (v := 0) (by decide) dL_remove_28 ?_
    exact hret _ _ _ _ _ _ dL_remove_29 (Option.some.inj h).symm rfl (Nat.le_of_ble_eq_true rfl) (Nat.le_of_ble_eq_true rfl)

abbrev rmL_has : Room := rmLw
theorem hdX7_has : yX7_has.cls = RX7 ∧ yX7_has.cls ≠ "java/lang/invoke/MethodHandle" ∧ yX7_has.cls ≠ "java/lang/invoke/VarHandle" ∧ (parseMethodDescriptor yX7_has.desc).map (fun d => d.parameters.length) = some 2 := by decide +kernel
set_option maxRecDepth 20000 in
theorem mL_has_k13 : Cond.classLink RL 13 "java/lang/IndexOutOfBoundsException" ∈ wsL_has := by decide +kernel
set_option maxHeartbeats 4000000 in
set_option maxRecDepth 100000 in
theorem qL_has {E : evT} {l : Launch} {D : va_G} {ad bd : Nat → Nat} {qo : Nat} {κ : Nat → ClassId} (hE : EvOk E) (hT : TOk E) (hfl : l.stackTraces = false) (hC : COk E) (p1 : Int32) (p2 : Int32) (s : lS) {o : ((Nat × lS) ⊕ (Int32 × lS))} (h : fL_has p1 p2 s = some o) : Xi l yL_has wsL_has rmL_has (lW ad bd κ qo) E D (tyA κ) .int [.ref (ad 55), .int p1, .int p2, .ref qo] s (fun r s2 => o = .inr (r, s2)) (fun e s2 => o = .inl (e, s2)) := by
  rw [fL_has] at h
  refine s_xiH (hh := [(0, 17, 20, 13), (0, 17, 24, 15)]) (cc := cL_has) (nL := 5) (own := RL) hE (lW_WA ad bd κ qo) (by decide) rfl rfl (Nat.le_of_ble_eq_true rfl) (fun Γ Qc G X9 hret => ?_)
  refine r_aload_n G 3 rfl rfl dL_has_0 ?_
  refine r_iconst G (v := 0) (by decide) dL_has_1 ?_
  refine r_aload_n G 0 rfl rfl dL_has_2 ?_
  refine r_iload_n G 1 rfl rfl dL_has_3 ?_
  refine r_iload_n G 2 rfl rfl dL_has_4 ?_
  obtain ⟨o1, e1, h⟩ := ob h
  refine e_callVix G (fun x9 : cS => (x9, s.2.1, s.2.2)) (fun x9 => lW_c ad bd κ qo x9 _ _) rfl [.int p1, .int p2] (qX7_has hE hT hfl p1 p2 _ e1) ⟨55, 7, _, _, rfl, (lw_SC ad bd κ qo _), rfl⟩ gL_has_X7_has rfl hdX7_has ⟨Nat.le_of_ble_eq_true rfl, Nat.le_of_ble_eq_true rfl⟩ (Nat.le_of_ble_eq_true rfl) rfl ⟨Nat.le_of_ble_eq_true rfl, Nat.le_of_ble_eq_true rfl⟩ rfl rfl dL_has_5 (fun k9 st9 hp9 => ?_) (fun r1 s1 hp hn1 => ?_)
  · subst hp9
    try dsimp only [Sum.elim_inl] at h
    by_cases c9 : k9 = 1
    · subst c9
      rw [if_pos rfl] at h
      refine r_catch G [] ⟨0, 17, 20, 13⟩ [⟨0, 17, 24, 15⟩] (by rw [X9.2.1]; rfl) (fun _ hz => nomatch hz) (by decide) (by decide) mL_has_k13 ((hC _ _ _ G.ev).c1) (fun q => ?_)
      refine r_astore G (lv' := []) [] rfl (by decide) dL_has_20 ?_
      refine r_iconst G (v := 1) (by decide) dL_has_22 ?_
      exact hret _ _ _ _ _ _ dL_has_23 (Option.some.inj h).symm rfl (Nat.le_of_ble_eq_true rfl) (Nat.le_of_ble_eq_true rfl)
    · rw [if_neg c9] at h
      by_cases c9 : k9 = 2
      · subst c9
        rw [if_pos rfl] at h
        refine r_catchL G [⟨0, 17, 20, 13⟩] ⟨0, 17, 24, 15⟩ [] (by rw [X9.2.1]; rfl) (fun z hz => by have hz := List.mem_singleton.mp hz; subst hz; exact Or.inr ⟨by decide, _, mL_has_k13, (hC _ _ _ G.ev).n21⟩) (by decide) (by decide) ((hC _ _ _ G.ev).l15) ((hC _ _ _ G.ev).c2) (fun q => ?_)
        refine r_astore G (lv' := []) [] rfl (by decide) dL_has_24 ?_
        refine r_iconst G (v := 2) (by decide) dL_has_26 ?_
        exact hret _ _ _ _ _ _ dL_has_27 (Option.some.inj h).symm rfl (Nat.le_of_ble_eq_true rfl) (Nat.le_of_ble_eq_true rfl)
      · rw [if_neg c9] at h
        cases h
  subst hp
  try dsimp only [Sum.elim_inr] at h
  refine r_if_eq G (tgt := 15) dL_has_8 (by decide) (fun c => ?_) (fun c => ?_)
  · rw [if_pos c] at h
    refine r_lconst G (v := 0) (by decide) dL_has_15 ?_
    refine r_outst G dL_has_16 ?_
    refine r_goto G (tgt := 28) dL_has_17 (by decide) ?_
    refine r_iconst G (v := 0) (by decide) dL_has_28 ?_
    exact hret _ _ _ _ _ _ dL_has_29 (Option.some.inj h).symm rfl (Nat.le_of_ble_eq_true rfl) (Nat.le_of_ble_eq_true rfl)
  · rw [if_neg c] at h
    refine r_lconst G (v := 1) (by decide) dL_has_11 ?_
    refine r_goto G (tgt := 16) dL_has_12 (by decide) ?_
    refine r_outst G dL_has_16 ?_
    refine r_goto G (tgt := 28) dL_has_17 (by decide) ?_
    refine r_iconst G (v := 0) (by decide) dL_has_28 ?_
    exact hret _ _ _ _ _ _ dL_has_29 (Option.some.inj h).symm rfl (Nat.le_of_ble_eq_true rfl) (Nat.le_of_ble_eq_true rfl)

abbrev rmL_size : Room := rmLw
theorem hdX7_size : yX7_size.cls = RX7 ∧ yX7_size.cls ≠ "java/lang/invoke/MethodHandle" ∧ yX7_size.cls ≠ "java/lang/invoke/VarHandle" ∧ (parseMethodDescriptor yX7_size.desc).map (fun d => d.parameters.length) = some 1 := by decide +kernel
set_option maxRecDepth 20000 in
theorem mL_size_k13 : Cond.classLink RL 13 "java/lang/IndexOutOfBoundsException" ∈ wsL_size := by decide +kernel
set_option maxHeartbeats 4000000 in
set_option maxRecDepth 100000 in
theorem qL_size {E : evT} {l : Launch} {D : va_G} {ad bd : Nat → Nat} {qo : Nat} {κ : Nat → ClassId} (hE : EvOk E) (hT : TOk E) (hfl : l.stackTraces = false) (hC : COk E) (p1 : Int32) (s : lS) {o : ((Nat × lS) ⊕ (Int32 × lS))} (h : fL_size p1 s = some o) : Xi l yL_size wsL_size rmL_size (lW ad bd κ qo) E D (tyA κ) .int [.ref (ad 55), .int p1, .ref qo] s (fun r s2 => o = .inr (r, s2)) (fun e s2 => o = .inl (e, s2)) := by
  rw [fL_size] at h
  refine s_xiH (hh := [(0, 9, 12, 13)]) (cc := cL_size) (nL := 4) (own := RL) hE (lW_WA ad bd κ qo) (by decide) rfl rfl (Nat.le_of_ble_eq_true rfl) (fun Γ Qc G X9 hret => ?_)
  refine r_aload_n G 2 rfl rfl dL_size_0 ?_
  refine r_iconst G (v := 0) (by decide) dL_size_1 ?_
  refine r_aload_n G 0 rfl rfl dL_size_2 ?_
  refine r_iload_n G 1 rfl rfl dL_size_3 ?_
  obtain ⟨o1, e1, h⟩ := ob h
  refine e_callVix G (fun x9 : cS => (x9, s.2.1, s.2.2)) (fun x9 => lW_c ad bd κ qo x9 _ _) rfl [.int p1] (qX7_size hE hT hfl p1 _ e1) ⟨55, 7, _, _, rfl, (lw_SC ad bd κ qo _), rfl⟩ gL_size_X7_size rfl hdX7_size ⟨Nat.le_of_ble_eq_true rfl, Nat.le_of_ble_eq_true rfl⟩ (Nat.le_of_ble_eq_true rfl) rfl ⟨Nat.le_of_ble_eq_true rfl, Nat.le_of_ble_eq_true rfl⟩ rfl rfl dL_size_4 (fun k9 st9 hp9 => ?_) (fun r1 s1 hp hn1 => ?_)
  · subst hp9
    try dsimp only [Sum.elim_inl] at h
    by_cases c9 : k9 = 1
    · subst c9
      rw [if_pos rfl] at h
      refine r_catch G [] ⟨0, 9, 12, 13⟩ [] (by rw [X9.2.1]; rfl) (fun _ hz => nomatch hz) (by decide) (by decide) mL_size_k13 ((hC _ _ _ G.ev).c1) (fun q => ?_)
      refine r_astore_n G (lv' := []) [] rfl rfl (by decide) dL_size_12 ?_
      refine r_iconst G (v := 1) (by decide) dL_size_13 ?_
      exact hret _ _ _ _ _ _ dL_size_14 (Option.some.inj h).symm rfl (Nat.le_of_ble_eq_true rfl) (Nat.le_of_ble_eq_true rfl)
    · rw [if_neg c9] at h
      cases h
  subst hp
  try dsimp only [Sum.elim_inr] at h
  refine r_i2l G dL_size_7 ?_
  refine r_outst G dL_size_8 ?_
  refine r_goto G (tgt := 15) dL_size_9 (by decide) ?_
  refine r_iconst G (v := 0) (by decide) dL_size_15 ?_
  exact hret _ _ _ _ _ _ dL_size_16 (Option.some.inj h).symm rfl (Nat.le_of_ble_eq_true rfl) (Nat.le_of_ble_eq_true rfl)

abbrev rmL_sum : Room := rmLw
theorem hdX7_sum : yX7_sum.cls = RX7 ∧ yX7_sum.cls ≠ "java/lang/invoke/MethodHandle" ∧ yX7_sum.cls ≠ "java/lang/invoke/VarHandle" ∧ (parseMethodDescriptor yX7_sum.desc).map (fun d => d.parameters.length) = some 1 := by decide +kernel
set_option maxRecDepth 20000 in
theorem mL_sum_k13 : Cond.classLink RL 13 "java/lang/IndexOutOfBoundsException" ∈ wsL_sum := by decide +kernel
set_option maxHeartbeats 4000000 in
set_option maxRecDepth 100000 in
theorem qL_sum {E : evT} {l : Launch} {D : va_G} {ad bd : Nat → Nat} {qo : Nat} {κ : Nat → ClassId} (hE : EvOk E) (hT : TOk E) (hfl : l.stackTraces = false) (hC : COk E) (p1 : Int32) (s : lS) {o : ((Nat × lS) ⊕ (Int32 × lS))} (h : fL_sum p1 s = some o) : Xi l yL_sum wsL_sum rmL_sum (lW ad bd κ qo) E D (tyA κ) .int [.ref (ad 55), .int p1, .ref qo] s (fun r s2 => o = .inr (r, s2)) (fun e s2 => o = .inl (e, s2)) := by
  rw [fL_sum] at h
  refine s_xiH (hh := [(0, 9, 12, 13)]) (cc := cL_sum) (nL := 4) (own := RL) hE (lW_WA ad bd κ qo) (by decide) rfl rfl (Nat.le_of_ble_eq_true rfl) (fun Γ Qc G X9 hret => ?_)
  refine r_aload_n G 2 rfl rfl dL_sum_0 ?_
  refine r_iconst G (v := 0) (by decide) dL_sum_1 ?_
  refine r_aload_n G 0 rfl rfl dL_sum_2 ?_
  refine r_iload_n G 1 rfl rfl dL_sum_3 ?_
  obtain ⟨o1, e1, h⟩ := ob h
  refine e_callVix G (fun x9 : cS => (x9, s.2.1, s.2.2)) (fun x9 => lW_c ad bd κ qo x9 _ _) rfl [.int p1] (qX7_sum hE hT hfl p1 _ e1) ⟨55, 7, _, _, rfl, (lw_SC ad bd κ qo _), rfl⟩ gL_sum_X7_sum rfl hdX7_sum ⟨Nat.le_of_ble_eq_true rfl, Nat.le_of_ble_eq_true rfl⟩ (Nat.le_of_ble_eq_true rfl) rfl ⟨Nat.le_of_ble_eq_true rfl, Nat.le_of_ble_eq_true rfl⟩ rfl rfl dL_sum_4 (fun k9 st9 hp9 => ?_) (fun r1 s1 hp hn1 => ?_)
  · subst hp9
    try dsimp only [Sum.elim_inl] at h
    by_cases c9 : k9 = 1
    · subst c9
      rw [if_pos rfl] at h
      refine r_catch G [] ⟨0, 9, 12, 13⟩ [] (by rw [X9.2.1]; rfl) (fun _ hz => nomatch hz) (by decide) (by decide) mL_sum_k13 ((hC _ _ _ G.ev).c1) (fun q => ?_)
      refine r_astore_n G (lv' := []) [] rfl rfl (by decide) dL_sum_12 ?_
      refine r_iconst G (v := 1) (by decide) dL_sum_13 ?_
      exact hret _ _ _ _ _ _ dL_sum_14 (Option.some.inj h).symm rfl (Nat.le_of_ble_eq_true rfl) (Nat.le_of_ble_eq_true rfl)
    · rw [if_neg c9] at h
      cases h
  subst hp
  try dsimp only [Sum.elim_inr] at h
  refine r_i2l G dL_sum_7 ?_
  refine r_outst G dL_sum_8 ?_
  refine r_goto G (tgt := 15) dL_sum_9 (by decide) ?_
  refine r_iconst G (v := 0) (by decide) dL_sum_15 ?_
  exact hret _ _ _ _ _ _ dL_sum_16 (Option.some.inj h).symm rfl (Nat.le_of_ble_eq_true rfl) (Nat.le_of_ble_eq_true rfl)

abbrev rmL_clear : Room := rmLw
theorem hdX7_clear : yX7_clear.cls = RX7 ∧ yX7_clear.cls ≠ "java/lang/invoke/MethodHandle" ∧ yX7_clear.cls ≠ "java/lang/invoke/VarHandle" ∧ (parseMethodDescriptor yX7_clear.desc).map (fun d => d.parameters.length) = some 1 := by decide +kernel
set_option maxRecDepth 20000 in
theorem mL_clear_k13 : Cond.classLink RL 13 "java/lang/IndexOutOfBoundsException" ∈ wsL_clear := by decide +kernel
set_option maxHeartbeats 4000000 in
set_option maxRecDepth 100000 in
theorem qL_clear {E : evT} {l : Launch} {D : va_G} {ad bd : Nat → Nat} {qo : Nat} {κ : Nat → ClassId} (hE : EvOk E) (hT : TOk E) (hfl : l.stackTraces = false) (hC : COk E) (p1 : Int32) (s : lS) {o : ((Nat × lS) ⊕ (Int32 × lS))} (h : fL_clear p1 s = some o) : Xi l yL_clear wsL_clear rmL_clear (lW ad bd κ qo) E D (tyA κ) .int [.ref (ad 55), .int p1, .ref qo] s (fun r s2 => o = .inr (r, s2)) (fun e s2 => o = .inl (e, s2)) := by
  rw [fL_clear] at h
  refine s_xiH (hh := [(0, 9, 12, 13)]) (cc := cL_clear) (nL := 4) (own := RL) hE (lW_WA ad bd κ qo) (by decide) rfl rfl (Nat.le_of_ble_eq_true rfl) (fun Γ Qc G X9 hret => ?_)
  refine r_aload_n G 2 rfl rfl dL_clear_0 ?_
  refine r_iconst G (v := 0) (by decide) dL_clear_1 ?_
  refine r_aload_n G 0 rfl rfl dL_clear_2 ?_
  refine r_iload_n G 1 rfl rfl dL_clear_3 ?_
  obtain ⟨o1, e1, h⟩ := ob h
  refine e_callVix G (fun x9 : cS => (x9, s.2.1, s.2.2)) (fun x9 => lW_c ad bd κ qo x9 _ _) rfl [.int p1] (qX7_clear hE hT hfl p1 _ e1) ⟨55, 7, _, _, rfl, (lw_SC ad bd κ qo _), rfl⟩ gL_clear_X7_clear rfl hdX7_clear ⟨Nat.le_of_ble_eq_true rfl, Nat.le_of_ble_eq_true rfl⟩ (Nat.le_of_ble_eq_true rfl) rfl ⟨Nat.le_of_ble_eq_true rfl, Nat.le_of_ble_eq_true rfl⟩ rfl rfl dL_clear_4 (fun k9 st9 hp9 => ?_) (fun r1 s1 hp hn1 => ?_)
  · subst hp9
    try dsimp only [Sum.elim_inl] at h
    by_cases c9 : k9 = 1
    · subst c9
      rw [if_pos rfl] at h
      refine r_catch G [] ⟨0, 9, 12, 13⟩ [] (by rw [X9.2.1]; rfl) (fun _ hz => nomatch hz) (by decide) (by decide) mL_clear_k13 ((hC _ _ _ G.ev).c1) (fun q => ?_)
      refine r_astore_n G (lv' := []) [] rfl rfl (by decide) dL_clear_12 ?_
      refine r_iconst G (v := 1) (by decide) dL_clear_13 ?_
      exact hret _ _ _ _ _ _ dL_clear_14 (Option.some.inj h).symm rfl (Nat.le_of_ble_eq_true rfl) (Nat.le_of_ble_eq_true rfl)
    · rw [if_neg c9] at h
      cases h
  subst hp
  try dsimp only [Sum.elim_inr] at h
  refine r_i2l G dL_clear_7 ?_
  refine r_outst G dL_clear_8 ?_
  refine r_goto G (tgt := 15) dL_clear_9 (by decide) ?_
  refine r_iconst G (v := 0) (by decide) dL_clear_15 ?_
  exact hret _ _ _ _ _ _ dL_clear_16 (Option.some.inj h).symm rfl (Nat.le_of_ble_eq_true rfl) (Nat.le_of_ble_eq_true rfl)

abbrev rmL_fill : Room := rmLw
theorem hdX7_fill : yX7_fill.cls = RX7 ∧ yX7_fill.cls ≠ "java/lang/invoke/MethodHandle" ∧ yX7_fill.cls ≠ "java/lang/invoke/VarHandle" ∧ (parseMethodDescriptor yX7_fill.desc).map (fun d => d.parameters.length) = some 4 := by decide +kernel
set_option maxRecDepth 20000 in
theorem mL_fill_k13 : Cond.classLink RL 13 "java/lang/IndexOutOfBoundsException" ∈ wsL_fill := by decide +kernel
set_option maxHeartbeats 4000000 in
set_option maxRecDepth 100000 in
theorem qL_fill {E : evT} {l : Launch} {D : va_G} {ad bd : Nat → Nat} {qo : Nat} {κ : Nat → ClassId} (hE : EvOk E) (hT : TOk E) (hfl : l.stackTraces = false) (hC : COk E) (p1 : Int32) (p2 : Int32) (p3 : Int32) (p4 : Int32) (s : lS) {o : ((Nat × lS) ⊕ (Int32 × lS))} (h : fL_fill p1 p2 p3 p4 s = some o) : Xi l yL_fill wsL_fill rmL_fill (lW ad bd κ qo) E D (tyA κ) .int [.ref (ad 55), .int p1, .int p2, .int p3, .int p4, .ref qo] s (fun r s2 => o = .inr (r, s2)) (fun e s2 => o = .inl (e, s2)) := by
  rw [fL_fill] at h
  refine s_xiH (hh := [(0, 14, 17, 13), (0, 14, 21, 15)]) (cc := cL_fill) (nL := 7) (own := RL) hE (lW_WA ad bd κ qo) (by decide) rfl rfl (Nat.le_of_ble_eq_true rfl) (fun Γ Qc G X9 hret => ?_)
  refine r_aload G 5 rfl dL_fill_0 ?_
  refine r_iconst G (v := 0) (by decide) dL_fill_2 ?_
  refine r_aload_n G 0 rfl rfl dL_fill_3 ?_
  refine r_iload_n G 1 rfl rfl dL_fill_4 ?_
  refine r_iload_n G 2 rfl rfl dL_fill_5 ?_
  refine r_iload_n G 3 rfl rfl dL_fill_6 ?_
  refine r_iload G 4 rfl dL_fill_7 ?_
  obtain ⟨o1, e1, h⟩ := ob h
  refine e_callVix G (fun x9 : cS => (x9, s.2.1, s.2.2)) (fun x9 => lW_c ad bd κ qo x9 _ _) rfl [.int p1, .int p2, .int p3, .int p4] (qX7_fill hE hT hfl p1 p2 p3 p4 _ e1) ⟨55, 7, _, _, rfl, (lw_SC ad bd κ qo _), rfl⟩ gL_fill_X7_fill rfl hdX7_fill ⟨Nat.le_of_ble_eq_true rfl, Nat.le_of_ble_eq_true rfl⟩ (Nat.le_of_ble_eq_true rfl) rfl ⟨Nat.le_of_ble_eq_true rfl, Nat.le_of_ble_eq_true rfl⟩ rfl rfl dL_fill_9 (fun k9 st9 hp9 => ?_) (fun r1 s1 hp hn1 => ?_)
  · subst hp9
    try dsimp only [Sum.elim_inl] at h
    by_cases c9 : k9 = 1
    · subst c9
      rw [if_pos rfl] at h
      refine r_catch G [] ⟨0, 14, 17, 13⟩ [⟨0, 14, 21, 15⟩] (by rw [X9.2.1]; rfl) (fun _ hz => nomatch hz) (by decide) (by decide) mL_fill_k13 ((hC _ _ _ G.ev).c1) (fun q => ?_)
      refine r_astore G (lv' := []) [] rfl (by decide) dL_fill_17 ?_
      refine r_iconst G (v := 1) (by decide) dL_fill_19 ?_
      exact hret _ _ _ _ _ _ dL_fill_20 (Option.some.inj h).symm rfl (Nat.le_of_ble_eq_true rfl) (Nat.le_of_ble_eq_true rfl)
    · rw [if_neg c9] at h
      by_cases c9 : k9 = 2
      · subst c9
        rw [if_pos rfl] at h
        refine r_catchL G [⟨0, 14, 17, 13⟩] ⟨0, 14, 21, 15⟩ [] (by rw [X9.2.1]; rfl) (fun z hz => by have hz := List.mem_singleton.mp hz; subst hz; exact Or.inr ⟨by decide, _, mL_fill_k13, (hC _ _ _ G.ev).n21⟩) (by decide) (by decide) ((hC _ _ _ G.ev).l15) ((hC _ _ _ G.ev).c2) (fun q => ?_)
        refine r_astore G (lv' := []) [] rfl (by decide) dL_fill_21 ?_
        refine r_iconst G (v := 2) (by decide) dL_fill_23 ?_
        exact hret _ _ _ _ _ _ dL_fill_24 (Option.some.inj h).symm rfl (Nat.le_of_ble_eq_true rfl) (Nat.le_of_ble_eq_true rfl)
      · rw [if_neg c9] at h
        cases h
  subst hp
  try dsimp only [Sum.elim_inr] at h
  refine r_i2l G dL_fill_12 ?_
  refine r_outst G dL_fill_13 ?_
  refine r_goto G (tgt := 25) dL_fill_14 (by decide) ?_
  refine r_iconst G (v := 0) (by decide) dL_fill_25 ?_
  exact hret _ _ _ _ _ _ dL_fill_26 (Option.some.inj h).symm rfl (Nat.le_of_ble_eq_true rfl) (Nat.le_of_ble_eq_true rfl)

abbrev rmL_memberAt : Room := rmLw
theorem hdX7_memberAt : yX7_memberAt.cls = RX7 ∧ yX7_memberAt.cls ≠ "java/lang/invoke/MethodHandle" ∧ yX7_memberAt.cls ≠ "java/lang/invoke/VarHandle" ∧ (parseMethodDescriptor yX7_memberAt.desc).map (fun d => d.parameters.length) = some 2 := by decide +kernel
set_option maxRecDepth 20000 in
theorem mL_memberAt_k13 : Cond.classLink RL 13 "java/lang/IndexOutOfBoundsException" ∈ wsL_memberAt := by decide +kernel
set_option maxHeartbeats 4000000 in
set_option maxRecDepth 100000 in
theorem qL_memberAt {E : evT} {l : Launch} {D : va_G} {ad bd : Nat → Nat} {qo : Nat} {κ : Nat → ClassId} (hE : EvOk E) (hT : TOk E) (hfl : l.stackTraces = false) (hC : COk E) (p1 : Int32) (p2 : Int32) (s : lS) {o : ((Nat × lS) ⊕ (Int32 × lS))} (h : fL_memberAt p1 p2 s = some o) : Xi l yL_memberAt wsL_memberAt rmL_memberAt (lW ad bd κ qo) E D (tyA κ) .int [.ref (ad 55), .int p1, .int p2, .ref qo] s (fun r s2 => o = .inr (r, s2)) (fun e s2 => o = .inl (e, s2)) := by
  rw [fL_memberAt] at h
  refine s_xiH (hh := [(0, 10, 13, 13), (0, 10, 17, 41)]) (cc := cL_memberAt) (nL := 5) (own := RL) hE (lW_WA ad bd κ qo) (by decide) rfl rfl (Nat.le_of_ble_eq_true rfl) (fun Γ Qc G X9 hret => ?_)
  refine r_aload_n G 3 rfl rfl dL_memberAt_0 ?_
  refine r_iconst G (v := 0) (by decide) dL_memberAt_1 ?_
  refine r_aload_n G 0 rfl rfl dL_memberAt_2 ?_
  refine r_iload_n G 1 rfl rfl dL_memberAt_3 ?_
  refine r_iload_n G 2 rfl rfl dL_memberAt_4 ?_
  obtain ⟨o1, e1, h⟩ := ob h
  refine e_callVix G (fun x9 : cS => (x9, s.2.1, s.2.2)) (fun x9 => lW_c ad bd κ qo x9 _ _) rfl [.int p1, .int p2] (qX7_memberAt hE hT hfl p1 p2 _ e1) ⟨55, 7, _, _, rfl, (lw_SC ad bd κ qo _), rfl⟩ gL_memberAt_X7_memberAt rfl hdX7_memberAt ⟨Nat.le_of_ble_eq_true rfl, Nat.le_of_ble_eq_true rfl⟩ (Nat.le_of_ble_eq_true rfl) rfl ⟨Nat.le_of_ble_eq_true rfl, Nat.le_of_ble_eq_true rfl⟩ rfl rfl dL_memberAt_5 (fun k9 st9 hp9 => ?_) (fun r1 s1 hp hn1 => ?_)
  · subst hp9
    try dsimp only [Sum.elim_inl] at h
    by_cases c9 : k9 = 1
    · subst c9
      rw [if_pos rfl] at h
      refine r_catch G [] ⟨0, 10, 13, 13⟩ [⟨0, 10, 17, 41⟩] (by rw [X9.2.1]; rfl) (fun _ hz => nomatch hz) (by decide) (by decide) mL_memberAt_k13 ((hC _ _ _ G.ev).c1) (fun q => ?_)
      refine r_astore G (lv' := []) [] rfl (by decide) dL_memberAt_13 ?_
      refine r_iconst G (v := 1) (by decide) dL_memberAt_15 ?_
      exact hret _ _ _ _ _ _ dL_memberAt_16 (Option.some.inj h).symm rfl (Nat.le_of_ble_eq_true rfl) (Nat.le_of_ble_eq_true rfl)
    · rw [if_neg c9] at h
      by_cases c9 : k9 = 3
      · subst c9
        rw [if_pos rfl] at h
        refine r_catchL G [⟨0, 10, 13, 13⟩] ⟨0, 10, 17, 41⟩ [] (by rw [X9.2.1]; rfl) (fun z hz => by have hz := List.mem_singleton.mp hz; subst hz; exact Or.inr ⟨by decide, _, mL_memberAt_k13, (hC _ _ _ G.ev).n31⟩) (by decide) (by decide) ((hC _ _ _ G.ev).l41) ((hC _ _ _ G.ev).c3) (fun q => ?_)
        refine r_astore G (lv' := []) [] rfl (by decide) dL_memberAt_17 ?_
        refine r_iconst G (v := 2) (by decide) dL_memberAt_19 ?_
        exact hret _ _ _ _ _ _ dL_memberAt_20 (Option.some.inj h).symm rfl (Nat.le_of_ble_eq_true rfl) (Nat.le_of_ble_eq_true rfl)
      · rw [if_neg c9] at h
        cases h
  subst hp
  try dsimp only [Sum.elim_inr] at h
  refine r_i2l G dL_memberAt_8 ?_
  refine r_outst G dL_memberAt_9 ?_
  refine r_goto G (tgt := 21) dL_memberAt_10 (by decide) ?_
  refine r_iconst G (v := 0) (by decide) dL_memberAt_21 ?_
  exact hret _ _ _ _ _ _ dL_memberAt_22 (Option.some.inj h).symm rfl (Nat.le_of_ble_eq_true rfl) (Nat.le_of_ble_eq_true rfl)

abbrev rmL_least : Room := rmLw
theorem hdX7_least : yX7_least.cls = RX7 ∧ yX7_least.cls ≠ "java/lang/invoke/MethodHandle" ∧ yX7_least.cls ≠ "java/lang/invoke/VarHandle" ∧ (parseMethodDescriptor yX7_least.desc).map (fun d => d.parameters.length) = some 1 := by decide +kernel
set_option maxRecDepth 20000 in
theorem mL_least_k13 : Cond.classLink RL 13 "java/lang/IndexOutOfBoundsException" ∈ wsL_least := by decide +kernel
set_option maxHeartbeats 4000000 in
set_option maxRecDepth 100000 in
theorem qL_least {E : evT} {l : Launch} {D : va_G} {ad bd : Nat → Nat} {qo : Nat} {κ : Nat → ClassId} (hE : EvOk E) (hT : TOk E) (hfl : l.stackTraces = false) (hC : COk E) (p1 : Int32) (s : lS) {o : ((Nat × lS) ⊕ (Int32 × lS))} (h : fL_least p1 s = some o) : Xi l yL_least wsL_least rmL_least (lW ad bd κ qo) E D (tyA κ) .int [.ref (ad 55), .int p1, .ref qo] s (fun r s2 => o = .inr (r, s2)) (fun e s2 => o = .inl (e, s2)) := by
  rw [fL_least] at h
  refine s_xiH (hh := [(0, 9, 12, 13), (0, 9, 15, 41)]) (cc := cL_least) (nL := 4) (own := RL) hE (lW_WA ad bd κ qo) (by decide) rfl rfl (Nat.le_of_ble_eq_true rfl) (fun Γ Qc G X9 hret => ?_)
  refine r_aload_n G 2 rfl rfl dL_least_0 ?_
  refine r_iconst G (v := 0) (by decide) dL_least_1 ?_
  refine r_aload_n G 0 rfl rfl dL_least_2 ?_
  refine r_iload_n G 1 rfl rfl dL_least_3 ?_
  obtain ⟨o1, e1, h⟩ := ob h
  refine e_callVix G (fun x9 : cS => (x9, s.2.1, s.2.2)) (fun x9 => lW_c ad bd κ qo x9 _ _) rfl [.int p1] (qX7_least hE hT hfl p1 _ e1) ⟨55, 7, _, _, rfl, (lw_SC ad bd κ qo _), rfl⟩ gL_least_X7_least rfl hdX7_least ⟨Nat.le_of_ble_eq_true rfl, Nat.le_of_ble_eq_true rfl⟩ (Nat.le_of_ble_eq_true rfl) rfl ⟨Nat.le_of_ble_eq_true rfl, Nat.le_of_ble_eq_true rfl⟩ rfl rfl dL_least_4 (fun k9 st9 hp9 => ?_) (fun r1 s1 hp hn1 => ?_)
  · subst hp9
    try dsimp only [Sum.elim_inl] at h
    by_cases c9 : k9 = 1
    · subst c9
      rw [if_pos rfl] at h
      refine r_catch G [] ⟨0, 9, 12, 13⟩ [⟨0, 9, 15, 41⟩] (by rw [X9.2.1]; rfl) (fun _ hz => nomatch hz) (by decide) (by decide) mL_least_k13 ((hC _ _ _ G.ev).c1) (fun q => ?_)
      refine r_astore_n G (lv' := []) [] rfl rfl (by decide) dL_least_12 ?_
      refine r_iconst G (v := 1) (by decide) dL_least_13 ?_
      exact hret _ _ _ _ _ _ dL_least_14 (Option.some.inj h).symm rfl (Nat.le_of_ble_eq_true rfl) (Nat.le_of_ble_eq_true rfl)
    · rw [if_neg c9] at h
      by_cases c9 : k9 = 3
      · subst c9
        rw [if_pos rfl] at h
        refine r_catchL G [⟨0, 9, 12, 13⟩] ⟨0, 9, 15, 41⟩ [] (by rw [X9.2.1]; rfl) (fun z hz => by have hz := List.mem_singleton.mp hz; subst hz; exact Or.inr ⟨by decide, _, mL_least_k13, (hC _ _ _ G.ev).n31⟩) (by decide) (by decide) ((hC _ _ _ G.ev).l41) ((hC _ _ _ G.ev).c3) (fun q => ?_)
        refine r_astore_n G (lv' := []) [] rfl rfl (by decide) dL_least_15 ?_
        refine r_iconst G (v := 2) (by decide) dL_least_16 ?_
        exact hret _ _ _ _ _ _ dL_least_17 (Option.some.inj h).symm rfl (Nat.le_of_ble_eq_true rfl) (Nat.le_of_ble_eq_true rfl)
      · rw [if_neg c9] at h
        cases h
  subst hp
  try dsimp only [Sum.elim_inr] at h
  refine r_i2l G dL_least_7 ?_
  refine r_outst G dL_least_8 ?_
  refine r_goto G (tgt := 18) dL_least_9 (by decide) ?_
  refine r_iconst G (v := 0) (by decide) dL_least_18 ?_
  exact hret _ _ _ _ _ _ dL_least_19 (Option.some.inj h).symm rfl (Nat.le_of_ble_eq_true rfl) (Nat.le_of_ble_eq_true rfl)

abbrev rmL_greatest : Room := rmLw
theorem hdX7_greatest : yX7_greatest.cls = RX7 ∧ yX7_greatest.cls ≠ "java/lang/invoke/MethodHandle" ∧ yX7_greatest.cls ≠ "java/lang/invoke/VarHandle" ∧ (parseMethodDescriptor yX7_greatest.desc).map (fun d => d.parameters.length) = some 1 := by decide +kernel
set_option maxRecDepth 20000 in
theorem mL_greatest_k13 : Cond.classLink RL 13 "java/lang/IndexOutOfBoundsException" ∈ wsL_greatest := by decide +kernel
set_option maxHeartbeats 4000000 in
set_option maxRecDepth 100000 in
theorem qL_greatest {E : evT} {l : Launch} {D : va_G} {ad bd : Nat → Nat} {qo : Nat} {κ : Nat → ClassId} (hE : EvOk E) (hT : TOk E) (hfl : l.stackTraces = false) (hC : COk E) (p1 : Int32) (s : lS) {o : ((Nat × lS) ⊕ (Int32 × lS))} (h : fL_greatest p1 s = some o) : Xi l yL_greatest wsL_greatest rmL_greatest (lW ad bd κ qo) E D (tyA κ) .int [.ref (ad 55), .int p1, .ref qo] s (fun r s2 => o = .inr (r, s2)) (fun e s2 => o = .inl (e, s2)) := by
  rw [fL_greatest] at h
  refine s_xiH (hh := [(0, 9, 12, 13), (0, 9, 15, 41)]) (cc := cL_greatest) (nL := 4) (own := RL) hE (lW_WA ad bd κ qo) (by decide) rfl rfl (Nat.le_of_ble_eq_true rfl) (fun Γ Qc G X9 hret => ?_)
  refine r_aload_n G 2 rfl rfl dL_greatest_0 ?_
  refine r_iconst G (v := 0) (by decide) dL_greatest_1 ?_
  refine r_aload_n G 0 rfl rfl dL_greatest_2 ?_
  refine r_iload_n G 1 rfl rfl dL_greatest_3 ?_
  obtain ⟨o1, e1, h⟩ := ob h
  refine e_callVix G (fun x9 : cS => (x9, s.2.1, s.2.2)) (fun x9 => lW_c ad bd κ qo x9 _ _) rfl [.int p1] (qX7_greatest hE hT hfl p1 _ e1) ⟨55, 7, _, _, rfl, (lw_SC ad bd κ qo _), rfl⟩ gL_greatest_X7_greatest rfl hdX7_greatest ⟨Nat.le_of_ble_eq_true rfl, Nat.le_of_ble_eq_true rfl⟩ (Nat.le_of_ble_eq_true rfl) rfl ⟨Nat.le_of_ble_eq_true rfl, Nat.le_of_ble_eq_true rfl⟩ rfl rfl dL_greatest_4 (fun k9 st9 hp9 => ?_) (fun r1 s1 hp hn1 => ?_)
  · subst hp9
    try dsimp only [Sum.elim_inl] at h
    by_cases c9 : k9 = 1
    · subst c9
      rw [if_pos rfl] at h
      refine r_catch G [] ⟨0, 9, 12, 13⟩ [⟨0, 9, 15, 41⟩] (by rw [X9.2.1]; rfl) (fun _ hz => nomatch hz) (by decide) (by decide) mL_greatest_k13 ((hC _ _ _ G.ev).c1) (fun q => ?_)
      refine r_astore_n G (lv' := []) [] rfl rfl (by decide) dL_greatest_12 ?_
      refine r_iconst G (v := 1) (by decide) dL_greatest_13 ?_
      exact hret _ _ _ _ _ _ dL_greatest_14 (Option.some.inj h).symm rfl (Nat.le_of_ble_eq_true rfl) (Nat.le_of_ble_eq_true rfl)
    · rw [if_neg c9] at h
      by_cases c9 : k9 = 3
      · subst c9
        rw [if_pos rfl] at h
        refine r_catchL G [⟨0, 9, 12, 13⟩] ⟨0, 9, 15, 41⟩ [] (by rw [X9.2.1]; rfl) (fun z hz => by have hz := List.mem_singleton.mp hz; subst hz; exact Or.inr ⟨by decide, _, mL_greatest_k13, (hC _ _ _ G.ev).n31⟩) (by decide) (by decide) ((hC _ _ _ G.ev).l41) ((hC _ _ _ G.ev).c3) (fun q => ?_)
        refine r_astore_n G (lv' := []) [] rfl rfl (by decide) dL_greatest_15 ?_
        refine r_iconst G (v := 2) (by decide) dL_greatest_16 ?_
        exact hret _ _ _ _ _ _ dL_greatest_17 (Option.some.inj h).symm rfl (Nat.le_of_ble_eq_true rfl) (Nat.le_of_ble_eq_true rfl)
      · rw [if_neg c9] at h
        cases h
  subst hp
  try dsimp only [Sum.elim_inr] at h
  refine r_i2l G dL_greatest_7 ?_
  refine r_outst G dL_greatest_8 ?_
  refine r_goto G (tgt := 18) dL_greatest_9 (by decide) ?_
  refine r_iconst G (v := 0) (by decide) dL_greatest_18 ?_
  exact hret _ _ _ _ _ _ dL_greatest_19 (Option.some.inj h).symm rfl (Nat.le_of_ble_eq_true rfl) (Nat.le_of_ble_eq_true rfl)

abbrev rmL_unite : Room := rmLw
theorem hdX7_unite : yX7_unite.cls = RX7 ∧ yX7_unite.cls ≠ "java/lang/invoke/MethodHandle" ∧ yX7_unite.cls ≠ "java/lang/invoke/VarHandle" ∧ (parseMethodDescriptor yX7_unite.desc).map (fun d => d.parameters.length) = some 2 := by decide +kernel
set_option maxRecDepth 20000 in
theorem mL_unite_k13 : Cond.classLink RL 13 "java/lang/IndexOutOfBoundsException" ∈ wsL_unite := by decide +kernel
set_option maxHeartbeats 4000000 in
set_option maxRecDepth 100000 in
theorem qL_unite {E : evT} {l : Launch} {D : va_G} {ad bd : Nat → Nat} {qo : Nat} {κ : Nat → ClassId} (hE : EvOk E) (hT : TOk E) (hfl : l.stackTraces = false) (hC : COk E) (p1 : Int32) (p2 : Int32) (s : lS) {o : ((Nat × lS) ⊕ (Int32 × lS))} (h : fL_unite p1 p2 s = some o) : Xi l yL_unite wsL_unite rmL_unite (lW ad bd κ qo) E D (tyA κ) .int [.ref (ad 55), .int p1, .int p2, .ref qo] s (fun r s2 => o = .inr (r, s2)) (fun e s2 => o = .inl (e, s2)) := by
  rw [fL_unite] at h
  refine s_xiH (hh := [(0, 17, 20, 13)]) (cc := cL_unite) (nL := 5) (own := RL) hE (lW_WA ad bd κ qo) (by decide) rfl rfl (Nat.le_of_ble_eq_true rfl) (fun Γ Qc G X9 hret => ?_)
  refine r_aload_n G 3 rfl rfl dL_unite_0 ?_
  refine r_iconst G (v := 0) (by decide) dL_unite_1 ?_
  refine r_aload_n G 0 rfl rfl dL_unite_2 ?_
  refine r_iload_n G 1 rfl rfl dL_unite_3 ?_
  refine r_iload_n G 2 rfl rfl dL_unite_4 ?_
  obtain ⟨o1, e1, h⟩ := ob h
  refine e_callVix G (fun x9 : cS => (x9, s.2.1, s.2.2)) (fun x9 => lW_c ad bd κ qo x9 _ _) rfl [.int p1, .int p2] (qX7_unite hE hT hfl p1 p2 _ e1) ⟨55, 7, _, _, rfl, (lw_SC ad bd κ qo _), rfl⟩ gL_unite_X7_unite rfl hdX7_unite ⟨Nat.le_of_ble_eq_true rfl, Nat.le_of_ble_eq_true rfl⟩ (Nat.le_of_ble_eq_true rfl) rfl ⟨Nat.le_of_ble_eq_true rfl, Nat.le_of_ble_eq_true rfl⟩ rfl rfl dL_unite_5 (fun k9 st9 hp9 => ?_) (fun r1 s1 hp hn1 => ?_)
  · subst hp9
    try dsimp only [Sum.elim_inl] at h
    by_cases c9 : k9 = 1
    · subst c9
      rw [if_pos rfl] at h
      refine r_catch G [] ⟨0, 17, 20, 13⟩ [] (by rw [X9.2.1]; rfl) (fun _ hz => nomatch hz) (by decide) (by decide) mL_unite_k13 ((hC _ _ _ G.ev).c1) (fun q => ?_)
      refine r_astore G (lv' := []) [] rfl (by decide) dL_unite_20 ?_
      refine r_iconst G (v := 1) (by decide) dL_unite_22 ?_
      exact hret _ _ _ _ _ _ dL_unite_23 (Option.some.inj h).symm rfl (Nat.le_of_ble_eq_true rfl) (Nat.le_of_ble_eq_true rfl)
    · rw [if_neg c9] at h
      cases h
  subst hp
  try dsimp only [Sum.elim_inr] at h
  refine r_if_eq G (tgt := 15) dL_unite_8 (by decide) (fun c => ?_) (fun c => ?_)
  · rw [if_pos c] at h
    refine r_lconst G (v := 0) (by decide) dL_unite_15 ?_
    refine r_outst G dL_unite_16 ?_
    refine r_goto G (tgt := 24) dL_unite_17 (by decide) ?_
    refine r_iconst G (v := 0) (by decide) dL_unite_24 ?_
    exact hret _ _ _ _ _ _ dL_unite_25 (Option.some.inj h).symm rfl (Nat.le_of_ble_eq_true rfl) (Nat.le_of_ble_eq_true rfl)
  · rw [if_neg c] at h
    refine r_lconst G (v := 1) (by decide) dL_unite_11 ?_
    refine r_goto G (tgt := 16) dL_unite_12 (by decide) ?_
    refine r_outst G dL_unite_16 ?_
    refine r_goto G (tgt := 24) dL_unite_17 (by decide) ?_
    refine r_iconst G (v := 0) (by decide) dL_unite_24 ?_
    exact hret _ _ _ _ _ _ dL_unite_25 (Option.some.inj h).symm rfl (Nat.le_of_ble_eq_true rfl) (Nat.le_of_ble_eq_true rfl)

abbrev rmL_meet : Room := rmLw
theorem hdX7_meet : yX7_meet.cls = RX7 ∧ yX7_meet.cls ≠ "java/lang/invoke/MethodHandle" ∧ yX7_meet.cls ≠ "java/lang/invoke/VarHandle" ∧ (parseMethodDescriptor yX7_meet.desc).map (fun d => d.parameters.length) = some 2 := by decide +kernel
set_option maxRecDepth 20000 in
theorem mL_meet_k13 : Cond.classLink RL 13 "java/lang/IndexOutOfBoundsException" ∈ wsL_meet := by decide +kernel
set_option maxHeartbeats 4000000 in
set_option maxRecDepth 100000 in
theorem qL_meet {E : evT} {l : Launch} {D : va_G} {ad bd : Nat → Nat} {qo : Nat} {κ : Nat → ClassId} (hE : EvOk E) (hT : TOk E) (hfl : l.stackTraces = false) (hC : COk E) (p1 : Int32) (p2 : Int32) (s : lS) {o : ((Nat × lS) ⊕ (Int32 × lS))} (h : fL_meet p1 p2 s = some o) : Xi l yL_meet wsL_meet rmL_meet (lW ad bd κ qo) E D (tyA κ) .int [.ref (ad 55), .int p1, .int p2, .ref qo] s (fun r s2 => o = .inr (r, s2)) (fun e s2 => o = .inl (e, s2)) := by
  rw [fL_meet] at h
  refine s_xiH (hh := [(0, 17, 20, 13)]) (cc := cL_meet) (nL := 5) (own := RL) hE (lW_WA ad bd κ qo) (by decide) rfl rfl (Nat.le_of_ble_eq_true rfl) (fun Γ Qc G X9 hret => ?_)
  refine r_aload_n G 3 rfl rfl dL_meet_0 ?_
  refine r_iconst G (v := 0) (by decide) dL_meet_1 ?_
  refine r_aload_n G 0 rfl rfl dL_meet_2 ?_
  refine r_iload_n G 1 rfl rfl dL_meet_3 ?_
  refine r_iload_n G 2 rfl rfl dL_meet_4 ?_
  obtain ⟨o1, e1, h⟩ := ob h
  refine e_callVix G (fun x9 : cS => (x9, s.2.1, s.2.2)) (fun x9 => lW_c ad bd κ qo x9 _ _) rfl [.int p1, .int p2] (qX7_meet hE hT hfl p1 p2 _ e1) ⟨55, 7, _, _, rfl, (lw_SC ad bd κ qo _), rfl⟩ gL_meet_X7_meet rfl hdX7_meet ⟨Nat.le_of_ble_eq_true rfl, Nat.le_of_ble_eq_true rfl⟩ (Nat.le_of_ble_eq_true rfl) rfl ⟨Nat.le_of_ble_eq_true rfl, Nat.le_of_ble_eq_true rfl⟩ rfl rfl dL_meet_5 (fun k9 st9 hp9 => ?_) (fun r1 s1 hp hn1 => ?_)
  · subst hp9
    try dsimp only [Sum.elim_inl] at h
    by_cases c9 : k9 = 1
    · subst c9
      rw [if_pos rfl] at h
      refine r_catch G [] ⟨0, 17, 20, 13⟩ [] (by rw [X9.2.1]; rfl) (fun _ hz => nomatch hz) (by decide) (by decide) mL_meet_k13 ((hC _ _ _ G.ev).c1) (fun q => ?_)
      refine r_astore G (lv' := []) [] rfl (by decide) dL_meet_20 ?_
      refine r_iconst G (v := 1) (by decide) dL_meet_22 ?_
      exact hret _ _ _ _ _ _ dL_meet_23 (Option.some.inj h).symm rfl (Nat.le_of_ble_eq_true rfl) (Nat.le_of_ble_eq_true rfl)
    · rw [if_neg c9] at h
      cases h
  subst hp
  try dsimp only [Sum.elim_inr] at h
  refine r_if_eq G (tgt := 15) dL_meet_8 (by decide) (fun c => ?_) (fun c => ?_)
  · rw [if_pos c] at h
    refine r_lconst G (v := 0) (by decide) dL_meet_15 ?_
    refine r_outst G dL_meet_16 ?_
    refine r_goto G (tgt := 24) dL_meet_17 (by decide) ?_
    refine r_iconst G (v := 0) (by decide) dL_meet_24 ?_
    exact hret _ _ _ _ _ _ dL_meet_25 (Option.some.inj h).symm rfl (Nat.le_of_ble_eq_true rfl) (Nat.le_of_ble_eq_true rfl)
  · rw [if_neg c] at h
    refine r_lconst G (v := 1) (by decide) dL_meet_11 ?_
    refine r_goto G (tgt := 16) dL_meet_12 (by decide) ?_
    refine r_outst G dL_meet_16 ?_
    refine r_goto G (tgt := 24) dL_meet_17 (by decide) ?_
    refine r_iconst G (v := 0) (by decide) dL_meet_24 ?_
    exact hret _ _ _ _ _ _ dL_meet_25 (Option.some.inj h).symm rfl (Nat.le_of_ble_eq_true rfl) (Nat.le_of_ble_eq_true rfl)
