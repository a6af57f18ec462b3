/-! ===== the class's walks through one set ===== -/
theorem vinI {k N : Nat} (h : k < N) (hN : N < 2 ^ 31) : vin (nI k) N = true := by
  unfold vin
  exact decide_eq_true (nI_in h hN)
theorem ge_102 {k : Nat} (h : k < 102) : ¬ (102 : Int32) ≤ nI k := nI_ge h (by decide)
theorem p_total_L (n : Nat) (s : cS) : ∀ (d fuel j : Nat), j + 1 + d = 102 → d < fuel → fX2_total_L4 n fuel (sumI (cB s n) j) (nI (j + 1)) s = some (sumI (cB s n) 101, s) := by
  intro d
  induction d with
  | zero =>
    intro fuel j h hf
    obtain ⟨f, rfl⟩ : ∃ f, fuel = f + 1 := ⟨fuel - 1, by omega⟩
    have : j = 101 := by omega
    subst this
    rw [fX2_total_L4, if_pos (show (102 : Int32) ≤ nI (101 + 1) from by decide)]
  | succ d ih =>
    intro fuel j h hf
    obtain ⟨f, rfl⟩ : ∃ f, fuel = f + 1 := ⟨fuel - 1, by omega⟩
    rw [fX2_total_L4, if_neg (ge_102 (by omega)), p_holds n s (by omega), if_bi, nI_1]
    have e : sumI (cB s n) (j + 1) = if cB s n (j + 1) then sumI (cB s n) j + (nI (j + 1) - 51) else sumI (cB s n) j := rfl
    have := ih f (j + 1) (by omega) (by omega)
    rw [e] at this
    cases c : cB s n (j + 1)
    · rw [c, if_neg (fun z => Bool.noConfusion z)] at this
      rw [if_neg (fun z => Bool.noConfusion z)]
      exact this
    · rw [c, if_pos rfl] at this
      rw [if_pos rfl]
      exact this
theorem p_total (n : Nat) (s : cS) : fX2_total n s = some (sumI (cB s n) 101, s) := p_total_L n s 101 1100 0 rfl (by decide)
theorem ct_succ (x : BS) (k : Nat) : fb_ct x (k + 1) = if x k then fb_ct x k + 1 else fb_ct x k := by
  rw [fb_ct_succ]
  cases x k <;> rfl
theorem p_indexAt_L (n : Nat) (s : cS) {P : Nat} (hP : P < 2 ^ 31) : ∀ (d fuel k : Nat), k + d = 102 → d < fuel → fb_ct (cB s n) k ≤ P → (∃ i, i < 102 ∧ cB s n i = true ∧ fb_ct (cB s n) i = P ∧ fX2_indexAt_L10 n (nI P) fuel (nI (fb_ct (cB s n) k)) (nI k) s = some (nI i, s)) ∨ (sz (cB s n) ≤ P ∧ fX2_indexAt_L10 n (nI P) fuel (nI (fb_ct (cB s n) k)) (nI k) s = some (-1, s)) := by
  intro d
  induction d with
  | zero =>
    intro fuel k h hf hk
    obtain ⟨f, rfl⟩ : ∃ f, fuel = f + 1 := ⟨fuel - 1, by omega⟩
    have : k = 102 := by omega
    subst this
    right
    rw [fX2_indexAt_L10, if_pos (show (102 : Int32) ≤ nI 102 from by decide)]
    exact ⟨hk, rfl⟩
  | succ d ih =>
    intro fuel k h hf hk
    obtain ⟨f, rfl⟩ : ∃ f, fuel = f + 1 := ⟨fuel - 1, by omega⟩
    have le := fb_ct_le (cB s n) k
    rw [fX2_indexAt_L10, if_neg (ge_102 (by omega)), p_holds n s (by omega), if_bi, nI_1 k]
    cases c : cB s n k
    · rw [if_neg (fun z => Bool.noConfusion z)]
      have e : fb_ct (cB s n) (k + 1) = fb_ct (cB s n) k := by rw [ct_succ, c]; rfl
      have := ih f (k + 1) (by omega) (by omega) (by rw [e]; exact hk)
      rw [e] at this
      exact this
    · rw [if_pos rfl]
      by_cases q : fb_ct (cB s n) k = P
      · left
        refine ⟨k, by omega, c, q, ?_⟩
        rw [if_pos (by rw [q])]
      · rw [if_neg (fun z => q ((nI_eq (by omega) hP).mp z)), nI_1]
        have e : fb_ct (cB s n) (k + 1) = fb_ct (cB s n) k + 1 := by rw [ct_succ, c]; rfl
        have := ih f (k + 1) (by omega) (by omega) (by rw [e]; omega)
        rw [e] at this
        exact this
theorem p_indexAt (n : Nat) (s : cS) (p : Int32) : (∃ i, i < 102 ∧ cB s n i = true ∧ p = nI (fb_ct (cB s n) i) ∧ fX2_indexAt n p s = some (nI i, s)) ∨ ((p < 0 ∨ ∃ P, P < 2 ^ 31 ∧ p = nI P ∧ sz (cB s n) ≤ P) ∧ fX2_indexAt n p s = some (-1, s)) := by
  unfold fX2_indexAt
  by_cases h : p < 0
  · right
    rw [if_neg (fun z => Int32.lt_irrefl (Int32.lt_of_le_of_lt z h))]
    exact ⟨Or.inl h, rfl⟩
  · obtain ⟨P, hP, rfl⟩ := nI_of h
    rw [if_pos (nI_pos' hP)]
    rcases p_indexAt_L n s hP 102 1100 0 rfl (by decide) (Nat.zero_le _) with ⟨i, h1, h2, h3, h4⟩ | ⟨h1, h2⟩
    · exact Or.inl ⟨i, h1, h2, by rw [h3], h4⟩
    · exact Or.inr ⟨Or.inr ⟨P, hP, rfl, h1⟩, h2⟩
theorem p_first_L (n : Nat) (s : cS) : ∀ (d fuel k : Nat), k + d = 102 → 1 ≤ k → d < fuel → (∀ j, 1 ≤ j → j < k → cB s n j = false) → (∃ i, 1 ≤ i ∧ k ≤ i ∧ i < 102 ∧ cB s n i = true ∧ (∀ j, 1 ≤ j → j < i → cB s n j = false) ∧ fX2_firstNumber_L2 n fuel (nI k) s = some (nI i, s)) ∨ ((∀ j, 1 ≤ j → j < 102 → cB s n j = false) ∧ fX2_firstNumber_L2 n fuel (nI k) s = some (-1, s)) := by
  intro d
  induction d with
  | zero =>
    intro fuel k h h1 hf hk
    obtain ⟨f, rfl⟩ : ∃ f, fuel = f + 1 := ⟨fuel - 1, by omega⟩
    have : k = 102 := by omega
    subst this
    right
    rw [fX2_firstNumber_L2, if_pos (show (102 : Int32) ≤ nI 102 from by decide)]
    exact ⟨hk, rfl⟩
  | succ d ih =>
    intro fuel k h h1 hf hk
    obtain ⟨f, rfl⟩ : ∃ f, fuel = f + 1 := ⟨fuel - 1, by omega⟩
    rw [fX2_firstNumber_L2, if_neg (ge_102 (by omega)), p_holds n s (by omega), if_bi, nI_1]
    cases c : cB s n k
    · rw [if_neg (fun z => Bool.noConfusion z)]
      rcases ih f (k + 1) (by omega) (by omega) (by omega) (fun j h1 h2 => if e : j = k then e ▸ c else hk j h1 (by omega)) with ⟨i, g1, h2, h3, h4, h5, h6⟩ | g
      · exact Or.inl ⟨i, g1, by omega, h3, h4, h5, h6⟩
      · exact Or.inr g
    · rw [if_pos rfl]
      exact Or.inl ⟨k, by omega, Nat.le_refl _, by omega, c, hk, rfl⟩
theorem p_firstNumber (n : Nat) (s : cS) : (∃ i, 1 ≤ i ∧ i < 102 ∧ cB s n i = true ∧ (∀ j, 1 ≤ j → j < i → cB s n j = false) ∧ fX2_firstNumber n s = some (nI i, s)) ∨ ((∀ j, 1 ≤ j → j < 102 → cB s n j = false) ∧ fX2_firstNumber n s = some (-1, s)) := by
  rcases p_first_L n s 101 1100 1 rfl (by decide) (by decide) (fun j h1 h2 => by omega) with ⟨i, h1, _, h3, h4, h5, h6⟩ | g
  · exact Or.inl ⟨i, h1, h3, h4, h5, h6⟩
  · exact Or.inr g
theorem p_last_L (n : Nat) (s : cS) : ∀ (k fuel : Nat), k < fuel → k < 102 → (∀ j, k < j → j < 102 → cB s n j = false) → (∃ i, 1 ≤ i ∧ i < 102 ∧ cB s n i = true ∧ (∀ j, i < j → j < 102 → cB s n j = false) ∧ fX2_lastNumber_L3 n fuel (nI k) s = some (nI i, s)) ∨ ((∀ j, 1 ≤ j → j < 102 → cB s n j = false) ∧ fX2_lastNumber_L3 n fuel (nI k) s = some (-1, s)) := by
  intro k
  induction k with
  | zero =>
    intro fuel hf h hk
    obtain ⟨f, rfl⟩ : ∃ f, fuel = f + 1 := ⟨fuel - 1, by omega⟩
    right
    rw [fX2_lastNumber_L3, if_pos (show nI 0 ≤ 0 from by decide)]
    exact ⟨fun j h1 h2 => hk j (by omega) h2, rfl⟩
  | succ k ih =>
    intro fuel hf h hk
    obtain ⟨f, rfl⟩ : ∃ f, fuel = f + 1 := ⟨fuel - 1, by omega⟩
    rw [fX2_lastNumber_L3, if_neg (nI_nle (by omega) (by omega)), p_holds n s h, if_bi, pk_m1]
    cases c : cB s n (k + 1)
    · rw [if_neg (fun z => Bool.noConfusion z)]
      exact ih f (by omega) (by omega) (fun j h1 h2 => if e : j = k + 1 then e ▸ c else hk j (by omega) h2)
    · rw [if_pos rfl]
      exact Or.inl ⟨k + 1, by omega, h, c, hk, rfl⟩
theorem p_lastNumber (n : Nat) (s : cS) : (∃ i, 1 ≤ i ∧ i < 102 ∧ cB s n i = true ∧ (∀ j, i < j → j < 102 → cB s n j = false) ∧ fX2_lastNumber n s = some (nI i, s)) ∨ ((∀ j, 1 ≤ j → j < 102 → cB s n j = false) ∧ fX2_lastNumber n s = some (-1, s)) := p_last_L n s 101 1100 (by decide) (by decide) (fun j h1 h2 => by omega)
