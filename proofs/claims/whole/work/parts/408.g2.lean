/-! ===== walks through one set, and votes ===== -/
theorem m_placeAt_L (r : Nat) (m : mS) {P : Nat} (hP : P < 2 ^ 31) : ∀ (d fuel k : Nat), k + d = 102 → d < fuel → fb_ct (mB m r) k ≤ P → (∃ i, i < 102 ∧ mB m r i = true ∧ fb_ct (mB m r) i = P ∧ fX8_placeAt_L4 r fuel (nI (P - fb_ct (mB m r) k)) (nI k) m = some (nI i, m)) ∨ (sz (mB m r) ≤ P ∧ fX8_placeAt_L4 r fuel (nI (P - fb_ct (mB m r) k)) (nI k) m = some (nI 102, m)) := by
  intro d
  induction d with
  | zero =>
    intro fuel k h hf hk
    obtain ⟨f, rfl⟩ : ∃ f, fuel = f + 1 := ⟨fuel - 1, by omega⟩
    have : k = 102 := by omega
    subst this
    right
    rw [fX8_placeAt_L4, if_pos (show (102 : Int32) ≤ nI 102 from by decide)]
    exact ⟨hk, rfl⟩
  | succ d ih =>
    intro fuel k h hf hk
    obtain ⟨f, rfl⟩ : ∃ f, fuel = f + 1 := ⟨fuel - 1, by omega⟩
    have hk2 : k < 102 := by omega
    have le := fb_ct_le (mB m r) k
    have ih := ih f (k + 1) (by omega) (by omega)
    rw [ct_succ] at ih
    rw [fX8_placeAt_L4, if_neg (ge_102 hk2)]
    simp only [vin102 hk2, cl102 hk2, if_true, nI_1 k, if_boolf (mB_0 hk2), Int32.sub_zero]
    cases c : mB m r k
    · rw [c] at ih
      simp only [Bool.false_eq_true, if_false] at ih ⊢
      exact ih hk
    · rw [c] at ih
      simp only [if_true] at ih ⊢
      by_cases q : fb_ct (mB m r) k = P
      · left
        refine ⟨k, hk2, c, q, ?_⟩
        rw [if_pos (by rw [q, Nat.sub_self]; decide)]
      · rw [if_neg (nI_nle (by omega) (by omega))]
        have e : nI (P - fb_ct (mB m r) k) - 1 = nI (P - (fb_ct (mB m r) k + 1)) := by
          rw [show P - fb_ct (mB m r) k = (P - (fb_ct (mB m r) k + 1)) + 1 from by omega, nI_pred]
        rw [e]
        exact ih (by omega)
theorem memOf_eq : ∀ k, k < 102 → (if nI k = 0 then (100 : Int32) else nI k - 51) = (if nI k = 0 then 100 else nI k - 50 - 1) := by decide +kernel
theorem ct_kth_lt {x : BS} {i : Nat} (h : i < 102) (hx : x i = true) : fb_ct x i < sz x := by
  have a : fb_ct x (i + 1) ≤ sz x := fb_ct_mono x (by omega)
  rw [ct_succ, if_pos hx] at a
  omega
theorem g_memberAt {a : cS} {m : mS} (h : Rel a m) (p q : Int32) : Meets 1 3 (fX7_memberAt p q a) (fX8_memberAt p q m) := by
  rcases set_or p with ⟨i, hi, rfl⟩ | ⟨s1, s2⟩
  · obtain ⟨s1, s2⟩ := set_in hi
    have hx := h.2.2.1 i hi
    rcases p_indexAt i a q with ⟨k, hk, h1, h2, h3⟩ | ⟨h1, h2⟩
    · have lt := ct_kth_lt hk h1
      have sl := sz_le (cB a i)
      subst h2
      refine Meets.ok (r := if nI k = 0 then 100 else nI k - 51) (a' := a) (m' := vI m 0 0) ?_ ?_ rfl (Rel_v0 h 0)
      · unfold fX7_memberAt
        simp only [s1, Option.bind_some, Sum.elim_inr, if_pos (lt8 hi), h3, if_neg (nI_m1 (show k < 2 ^ 31 by omega))]
        rfl
      · unfold fX8_memberAt
        simp only [s2, one_0, if_neg (nI_pos (show fb_ct (cB a i) k < 2 ^ 31 by omega)), vin8 hi, cl8 hi, if_true, pass_0]
        have := m_placeAt_L i m (P := fb_ct (cB a i) k) (by omega) 102 1100 0 rfl (by decide) (Nat.zero_le _)
        rw [← hx] at this
        rcases this with ⟨j, g1, g2, g3, g4⟩ | ⟨g1, g2⟩
        · have e := fb_ct_kth_one g2 h1 g3
          subst e
          have g4 : fX8_placeAt i (nI (fb_ct (cB a i) j)) m = some (nI j, m) := g4
          simp only [g4, Option.bind_some, if_neg (ge_102 hk), one_0]
          rw [memOf_eq j hk]
          rfl
        · omega
    · refine Meets.e2 (r := 0) h ?_ ?_
      · unfold fX7_memberAt
        simp only [s1, Option.bind_some, Sum.elim_inr, if_pos (lt8 hi), h2, if_true]
      · unfold fX8_memberAt
        rcases h1 with h1 | ⟨P, hP, rfl, h1⟩
        · simp only [s2, one_0, if_pos h1, pass_2, Option.bind_some, if_true]
        · simp only [s2, one_0, if_neg (nI_pos hP), vin8 hi, cl8 hi, if_true]
          have := m_placeAt_L i m (P := P) hP 102 1100 0 rfl (by decide) (Nat.zero_le _)
          rw [← hx] at this
          rcases this with ⟨j, g1, g2, g3, g4⟩ | ⟨g1, g4⟩
          · have := ct_kth_lt g1 g2
            omega
          · have g4 : fX8_placeAt i (nI P) m = some (nI 102, m) := g4
            simp only [g4, Option.bind_some, if_pos (show (102 : Int32) ≤ nI 102 from by decide), pass_2, if_true]
  · refine Meets.e1 (r := 0) h ?_ ?_
    · unfold fX7_memberAt
      simp only [s1, Option.bind_some, Sum.elim_inl]
    · unfold fX8_memberAt
      simp only [s2, pass_1, Option.bind_some, if_true]
theorem m_least_L (i : Nat) (hi : i < 8) (k0 : Int32 → mS → Option (Int32 × mS)) (m : mS) : ∀ (d fuel k : Nat), k + d = 102 → 1 ≤ k → d < fuel → (∀ j, 1 ≤ j → j < k → mB m i j = false) → (∃ l, 1 ≤ l ∧ l < 102 ∧ mB m i l = true ∧ (∀ j, 1 ≤ j → j < l → mB m i j = false) ∧ fX8_least_L7 (nI i) 1 k0 fuel (nI k) m = k0 (nI l) m) ∨ ((∀ j, 1 ≤ j → j < 102 → mB m i j = false) ∧ fX8_least_L7 (nI i) 1 k0 fuel (nI k) m = k0 (nI 102) m) := by
  intro d
  induction d with
  | zero =>
    intro fuel k h h1 hf hk
    obtain ⟨f, rfl⟩ : ∃ f, fuel = f + 1 := ⟨fuel - 1, by omega⟩
    have : k = 102 := by omega
    subst this
    right
    rw [fX8_least_L7, if_neg (by decide), if_pos (show (102 : Int32) ≤ nI 102 from by decide)]
    exact ⟨hk, rfl⟩
  | succ d ih =>
    intro fuel k h h1 hf hk
    obtain ⟨f, rfl⟩ : ∃ f, fuel = f + 1 := ⟨fuel - 1, by omega⟩
    have hk2 : k < 102 := by omega
    rw [fX8_least_L7, if_neg (by decide), if_neg (ge_102 hk2), if_pos (vin8 hi), if_pos (vin102 hk2), cl8 hi, cl102 hk2, if_boolf (mB_0 hk2), nI_1]
    cases c : mB m i k
    · rw [if_neg (fun z => Bool.noConfusion z)]
      exact ih f (k + 1) (by omega) (by omega) (by omega) (fun j h1 h2 => if e : j = k then e ▸ c else hk j h1 (by omega))
    · rw [if_pos rfl]
      exact Or.inl ⟨k, h1, hk2, c, hk, rfl⟩
theorem least_eq : ∀ k, k < 102 → 1 ≤ k → (if nI k = 0 then (100 : Int32) else nI k - 50 - 1) = nI k - 51 := by decide +kernel
theorem g_least {a : cS} {m : mS} (h : Rel a m) (p : Int32) : Meets 1 3 (fX7_least p a) (fX8_least p m) := by
  rcases set_or p with ⟨i, hi, rfl⟩ | ⟨s1, s2⟩
  · obtain ⟨s1, s2⟩ := set_in hi
    have hx := h.2.2.1 i hi
    unfold fX8_least
    rw [s2]
    rcases p_firstNumber i a with ⟨k, h1, h2, h3, h4, h5⟩ | ⟨h1, h2⟩
    · rcases m_least_L i hi (fun y3_4 s4 => if 102 ≤ y3_4 then ((fX8_passes (fX8_isSet (nI i) m) (0 : Int32) s4).bind (fun (r5, s5) => if r5 = 0 then (some ((0, s5))) else (some ((fX8_memberOf y3_4 s5, s5))))) else ((fX8_passes (fX8_isSet (nI i) m) (1 : Int32) s4).bind (fun (r7, s7) => if r7 = 0 then (some ((0, s7))) else (some ((fX8_memberOf y3_4 s7, s7)))))) m 101 1100 1 rfl (by decide) (by decide) (fun j h1 h2 => by omega) with ⟨l, g1, g2, g3, g4, g5⟩ | ⟨g1, g2⟩
      · rw [← hx] at g3 g4
        have e : l = k := by
          rcases Nat.lt_trichotomy l k with q | q | q
          · rw [h4 l g1 q] at g3
            exact Bool.noConfusion g3
          · exact q
          · rw [g4 k h1 q] at h3
            exact Bool.noConfusion h3
        subst e
        rw [s2] at g5
        refine Meets.ok (r := nI l - 51) (a' := a) (m' := vI m 0 0) ?_ (g5.trans ?_) rfl (Rel_v0 h 0)
        · unfold fX7_least fX7_numberOf
          simp only [s1, Option.bind_some, Sum.elim_inr, if_pos (lt8 hi), h5, if_neg (nI_m1 (show l < 2 ^ 31 by omega))]
        · simp only [if_neg (ge_102 g2), pass_0, Option.bind_some, one_0]
          unfold fX8_memberOf
          rw [least_eq l g2 g1]
      · rw [← hx] at g1
        rw [g1 k h1 h2] at h3
        exact Bool.noConfusion h3
    · rcases m_least_L i hi (fun y3_4 s4 => if 102 ≤ y3_4 then ((fX8_passes (fX8_isSet (nI i) m) (0 : Int32) s4).bind (fun (r5, s5) => if r5 = 0 then (some ((0, s5))) else (some ((fX8_memberOf y3_4 s5, s5))))) else ((fX8_passes (fX8_isSet (nI i) m) (1 : Int32) s4).bind (fun (r7, s7) => if r7 = 0 then (some ((0, s7))) else (some ((fX8_memberOf y3_4 s7, s7)))))) m 101 1100 1 rfl (by decide) (by decide) (fun j h1 h2 => by omega) with ⟨l, g1, g2, g3, g4, g5⟩ | ⟨g1, g5⟩
      · rw [← hx] at g3
        rw [h1 l g1 g2] at g3
        exact Bool.noConfusion g3
      · rw [s2] at g5
        refine Meets.e2 (r := 0) h ?_ (g5.trans ?_)
        · unfold fX7_least fX7_numberOf
          simp only [s1, Option.bind_some, Sum.elim_inr, Sum.elim_inl, if_pos (lt8 hi), h2, if_true]
        · simp only [if_pos (show (102 : Int32) ≤ nI 102 from by decide), pass_2, Option.bind_some, if_true]
  · refine Meets.e1 (r := 0) h ?_ ?_
    · unfold fX7_least
      simp only [s1, Option.bind_some, Sum.elim_inl]
    · unfold fX8_least
      rw [s2, fX8_least_L7]
      simp only [if_true, if_neg (show ¬ (102 : Int32) ≤ 1 from by decide), pass_1, Option.bind_some]
theorem m_greatest_L (i : Nat) (hi : i < 8) (k0 : Int32 → mS → Option (Int32 × mS)) (m : mS) : ∀ (k fuel : Nat), k < fuel → k < 102 → (∀ j, k < j → j < 102 → mB m i j = false) → (∃ l, 1 ≤ l ∧ l < 102 ∧ mB m i l = true ∧ (∀ j, l < j → j < 102 → mB m i j = false) ∧ fX8_greatest_L8 (nI i) 1 k0 fuel (nI k) m = k0 (nI l) m) ∨ ((∀ j, 1 ≤ j → j < 102 → mB m i j = false) ∧ fX8_greatest_L8 (nI i) 1 k0 fuel (nI k) m = k0 (nI 0) m) := by
  intro k
  induction k with
  | zero =>
    intro fuel hf h hk
    obtain ⟨f, rfl⟩ : ∃ f, fuel = f + 1 := ⟨fuel - 1, by omega⟩
    right
    rw [fX8_greatest_L8, if_neg (by decide), if_pos (show nI 0 ≤ 0 from by decide)]
    exact ⟨fun j h1 h2 => hk j (by omega) h2, rfl⟩
  | succ k ih =>
    intro fuel hf h hk
    obtain ⟨f, rfl⟩ : ∃ f, fuel = f + 1 := ⟨fuel - 1, by omega⟩
    rw [fX8_greatest_L8, if_neg (by decide), if_neg (nI_nle (by omega) (by omega)), if_pos (vin8 hi), if_pos (vin102 h), cl8 hi, cl102 h, if_boolf (mB_0 h), pk_m1]
    cases c : mB m i (k + 1)
    · rw [if_neg (fun z => Bool.noConfusion z)]
      exact ih f (by omega) (by omega) (fun j h1 h2 => if e : j = k + 1 then e ▸ c else hk j (by omega) h2)
    · rw [if_pos rfl]
      exact Or.inl ⟨k + 1, by omega, h, c, hk, rfl⟩
theorem g_greatest {a : cS} {m : mS} (h : Rel a m) (p : Int32) : Meets 1 3 (fX7_greatest p a) (fX8_greatest p m) := by
  rcases set_or p with ⟨i, hi, rfl⟩ | ⟨s1, s2⟩
  · obtain ⟨s1, s2⟩ := set_in hi
    have hx := h.2.2.1 i hi
    unfold fX8_greatest
    rw [s2]
    rcases m_greatest_L i hi (fun y3_4 s4 => if y3_4 ≤ 0 then ((fX8_passes (1 : Int32) (0 : Int32) s4).bind (fun (r5, s5) => if r5 = 0 then (some ((0, s5))) else (some ((fX8_memberOf y3_4 s5, s5))))) else ((fX8_passes (1 : Int32) (1 : Int32) s4).bind (fun (r7, s7) => if r7 = 0 then (some ((0, s7))) else (some ((fX8_memberOf y3_4 s7, s7)))))) m 101 1100 (by decide) (by decide) (fun j h1 h2 => by omega) with ⟨l, g1, g2, g3, g4, g5⟩ | ⟨g1, g5⟩
    · rw [← hx] at g3 g4
      rcases p_lastNumber i a with ⟨k, h1, h2, h3, h4, h5⟩ | ⟨h1, h2⟩
      · have e : l = k := by
          rcases Nat.lt_trichotomy l k with q | q | q
          · rw [g4 k q h2] at h3
            exact Bool.noConfusion h3
          · exact q
          · rw [h4 l q g2] at g3
            exact Bool.noConfusion g3
        subst e
        refine Meets.ok (r := nI l - 51) (a' := a) (m' := vI m 0 0) ?_ (g5.trans ?_) rfl (Rel_v0 h 0)
        · unfold fX7_greatest fX7_numberOf
          simp only [s1, Option.bind_some, Sum.elim_inr, if_pos (lt8 hi), h5, if_neg (nI_m1 (show l < 2 ^ 31 by omega))]
        · simp only [if_neg (nI_nle (show 0 < l from g1) (show l < 2 ^ 31 by omega)), pass_0, Option.bind_some, one_0]
          unfold fX8_memberOf
          rw [least_eq l g2 g1]
      · rw [h1 l g1 g2] at g3
        exact Bool.noConfusion g3
    · rw [← hx] at g1
      rcases p_lastNumber i a with ⟨k, h1, h2, h3, h4, h5⟩ | ⟨h1, h2⟩
      · rw [g1 k h1 h2] at h3
        exact Bool.noConfusion h3
      · refine Meets.e2 (r := 0) h ?_ (g5.trans ?_)
        · unfold fX7_greatest fX7_numberOf
          simp only [s1, Option.bind_some, Sum.elim_inr, Sum.elim_inl, if_pos (lt8 hi), h2, if_true]
        · simp only [if_pos (show nI 0 ≤ 0 from by decide), pass_2, Option.bind_some, if_true]
  · refine Meets.e1 (r := 0) h ?_ ?_
    · unfold fX7_greatest
      simp only [s1, Option.bind_some, Sum.elim_inl]
    · unfold fX8_greatest
      rw [s2, fX8_greatest_L8]
      simp only [if_true, if_neg (show ¬ (101 : Int32) ≤ 0 from by decide), pass_1, Option.bind_some]
/-! votes -/
def vt (f : Nat → BS) (k : Nat) : Nat := fb_ct (fun i => f i k) 8
theorem vt_le (f : Nat → BS) (k : Nat) : vt f k ≤ 8 := fb_ct_le _ 8
theorem ge_8 {k : Nat} (h : k < 8) : ¬ (8 : Int32) ≤ nI k := nI_ge h (by decide)
theorem p_votes_L (a : cS) {k : Nat} (hk : k < 102) : ∀ (d fuel j : Nat), j + d = 8 → d < fuel → fX7_votesFor_L4 (nI k) fuel (nI (fb_ct (fun i => cB a i k) j)) (nI j) a = some (nI (vt (cB a) k), a) := by
  intro d
  induction d with
  | zero =>
    intro fuel j h hf
    obtain ⟨f, rfl⟩ : ∃ f, fuel = f + 1 := ⟨fuel - 1, by omega⟩
    have : j = 8 := by omega
    subst this
    rw [fX7_votesFor_L4, if_pos (show (8 : Int32) ≤ nI 8 from by decide)]
    rfl
  | succ d ih =>
    intro fuel j h hf
    obtain ⟨f, rfl⟩ : ∃ f, fuel = f + 1 := ⟨fuel - 1, by omega⟩
    have hj : j < 8 := by omega
    rw [fX7_votesFor_L4, if_neg (ge_8 hj), if_pos (vin8 hj), cl8 hj, p_holds j a hk, if_bi, nI_1, nI_1]
    have := ih f (j + 1) (by omega) (by omega)
    rw [ct_succ] at this
    cases c : cB a j k
    · simp only [c, Bool.false_eq_true, if_false] at this ⊢
      exact this
    · simp only [c, if_true] at this ⊢
      exact this
theorem p_votes (a : cS) {k : Nat} (hk : k < 102) : fX7_votesFor (nI k) a = some (nI (vt (cB a) k), a) := p_votes_L a hk 8 1100 0 rfl (by decide)
theorem m_votes_L (m : mS) {k : Nat} (hk : k < 102) : ∀ (d fuel j : Nat), j + d = 8 → d < fuel → fX8_votes_L4 (nI k) fuel (nI (fb_ct (fun i => mB m i k) j)) (nI j) m = some (nI (vt (mB m) k), m) := by
  intro d
  induction d with
  | zero =>
    intro fuel j h hf
    obtain ⟨f, rfl⟩ : ∃ f, fuel = f + 1 := ⟨fuel - 1, by omega⟩
    have : j = 8 := by omega
    subst this
    rw [fX8_votes_L4, if_pos (show (8 : Int32) ≤ nI 8 from by decide)]
    rfl
  | succ d ih =>
    intro fuel j h hf
    obtain ⟨f, rfl⟩ : ∃ f, fuel = f + 1 := ⟨fuel - 1, by omega⟩
    have hj : j < 8 := by omega
    rw [fX8_votes_L4, if_neg (ge_8 hj), if_pos (vin8 hj), if_pos (vin102 hk), cl8 hj, cl102 hk, if_boolf (mB_0 hk), nI_1, nI_1, Int32.add_zero]
    have := ih f (j + 1) (by omega) (by omega)
    rw [ct_succ] at this
    cases c : mB m j k
    · simp only [c, Bool.false_eq_true, if_false] at this ⊢
      exact this
    · simp only [c, if_true] at this ⊢
      exact this
theorem m_votes (m : mS) {k : Nat} (hk : k < 102) : fX8_votes (nI k) m = some (nI (vt (mB m) k), m) := m_votes_L m hk 8 1100 0 rfl (by decide)
theorem vt_eq {a : cS} {m : mS} (h : Rel a m) (k : Nat) : vt (mB m) k = vt (cB a) k := fb_ct_cong fun i hi => by
  show mB m i k = cB a i k
  rw [h.2.2.1 i hi]
theorem g_vote {a : cS} {m : mS} (h : Rel a m) (q : Int32) : Meets 2 2 (fX7_vote q a) (fX8_vote q m) := by
  rcases mem_or q with ⟨k, hk, q1, q2, q3⟩ | ⟨q1, q2⟩
  · refine Meets.ok (r := nI (vt (cB a) k)) (a' := a) (m' := vI m 0 0) ?_ ?_ rfl (Rel_v0 h 0)
    · unfold fX7_vote
      simp only [q1, Option.bind_some, Sum.elim_inr, p_votes a hk]
    · unfold fX8_vote
      simp only [q2, q3, pass_0, Option.bind_some, one_0, m_votes _ hk, mB_vI, vt_eq h]
  · refine Meets.e1 (r := 0) h ?_ ?_
    · unfold fX7_vote
      simp only [q1, Option.bind_some, Sum.elim_inl]
    · unfold fX8_vote
      simp only [q2, pass_1, Option.bind_some, if_true]
