/-! ===== the class's walks through one set ===== -/
theorem vinI {k N : Nat} (h : k < N) (hN : N < 2 ^ 31) : vin (nI k) N = true := by
  unfold vin
  exact decide_eq_true (nI_in h hN)
theorem ge_102 {k : Nat} (h : k < 102) : ¬ (102 : Int32) ≤ nI k := nI_ge h (by decide)
theorem p_total_L (n : Nat) (s : cS) : ∀ (d fuel j : Nat), j + 1 + d = 102 → d < fuel → fX2_total_L4 n fuel (sumI (cB s n) j) (nI (j + 1)) s = some (sumI (cB s n) 101, s) := by
  intro d
  induction d with
  | zero =>
    intro fuel j h hf
    obtain ⟨f, rfl⟩ : ∃ f, fuel = f + 1 := ⟨fuel - 1, by omega⟩
    have : j = 101 := by omega
    subst this
    rw [fX2_total_L4, if_pos (show (102 : Int32) ≤ nI (101 + 1) from by decide)]
  | succ d ih =>
    intro fuel j h hf
    obtain ⟨f, rfl⟩ : ∃ f, fuel = f + 1 := ⟨fuel - 1, by omega⟩
    rw [fX2_total_L4, if_neg (ge_102 (by omega)), p_holds n s (by omega), if_bi, nI_1]
    have e : sumI (cB s n) (j + 1) = if cB s n (j + 1) then sumI (cB s n) j + (nI (j + 1) - 51) else sumI (cB s n) j := rfl
    have := ih f (j + 1) (by omega) (by omega)
    rw [e] at this
    cases c : cB s n (j + 1)
    · rw [c, if_neg (fun z => Bool.noConfusion z)] at this
      rw [if_neg (fun z => Bool.noConfusion z)]
      exact this
    · rw [c, if_pos rfl] at this
      rw [if_pos rfl]
      exact this
theorem p_total (n : Nat) (s : cS) : fX2_total n s = some (sumI (cB s n) 101, s) := p_total_L n s 101 1100 0 rfl (by decide)
theorem ct_succ (x : BS) (k : Nat) : fb_ct x (k + 1) = if x k then fb_ct x k + 1 else fb_ct x k := by
  rw [fb_ct_succ]
  cases x k <;> rfl
theorem p_indexAt_L (n : Nat) (s : cS) {P : Nat} (hP : P < 2 ^ 31) : ∀ (d fuel k : Nat), k + d = 102 → d < fuel → fb_ct (cB s n) k ≤ P → (∃ i, i < 102 ∧ cB s n i = true ∧ fb_ct (cB s n) i = P ∧ fX2_indexAt_L10 n (nI P) fuel (nI (fb_ct (cB s n) k)) (nI k) s = some (nI i, s)) ∨ (sz (cB s n) ≤ P ∧ fX2_indexAt_L10 n (nI P) fuel (nI (fb_ct (cB s n) k)) (nI k) s = some (-1, s)) := by
  intro d
  induction d with
  | zero =>
    intro fuel k h hf hk
    obtain ⟨f, rfl⟩ : ∃ f, fuel = f + 1 := ⟨fuel - 1, by omega⟩
    have : k = 102 := by omega
    subst this
    right
    rw [fX2_indexAt_L10, if_pos (show (102 : Int32) ≤ nI 102 from by decide)]
    exact ⟨hk, rfl⟩
  | succ d ih =>
    intro fuel k h hf hk
    obtain ⟨f, rfl⟩ : ∃ f, fuel = f + 1 := ⟨fuel - 1, by omega⟩
    have le := fb_ct_le (cB s n) k
    rw [fX2_indexAt_L10, if_neg (ge_102 (by omega)), p_holds n s (by omega), if_bi, nI_1 k]
    cases c : cB s n k
    · rw [if_neg (fun z => Bool.noConfusion z)]
      have e : fb_ct (cB s n) (k + 1) = fb_ct (cB s n) k := by rw [ct_succ, c]; rfl
      have := ih f (k + 1) (by omega) (by omega) (by rw [e]; exact hk)
      rw [e] at this
      exact this
    · rw [if_pos rfl]
      by_cases q : fb_ct (cB s n) k = P
      · left
        refine ⟨k, by omega, c, q, ?_⟩
        rw [if_pos (by rw [q])]
      · rw [if_neg (fun z => q ((nI_eq (by omega) hP).mp z)), nI_1]
        have e : fb_ct (cB s n) (k + 1) = fb_ct (cB s n) k + 1 := by rw [ct_succ, c]; rfl
        have := ih f (k + 1) (by omega) (by omega) (by rw [e]; omega)
        rw [e] at this
        exact this
theorem p_indexAt (n : Nat) (s : cS) (p : Int32) : (∃ i, i < 102 ∧ cB s n i = true ∧ p = nI (fb_ct (cB s n) i) ∧ fX2_indexAt n p s = some (nI i, s)) ∨ ((p < 0 ∨ ∃ P, P < 2 ^ 31 ∧ p = nI P ∧ sz (cB s n) ≤ P) ∧ fX2_indexAt n p s = some (-1, s)) := by
  unfold fX2_indexAt
  by_cases h : p < 0
  · right
    rw [if_neg (fun z => Int32.lt_irrefl (Int32.lt_of_le_of_lt z h))]
    exact ⟨Or.inl h, rfl⟩
  · obtain ⟨P, hP, rfl⟩ := nI_of h
    rw [if_pos (nI_pos' hP)]
    rcases p_indexAt_L n s hP 102 1100 0 rfl (by decide) (Nat.zero_le _) with ⟨i, h1, h2, h3, h4⟩ | ⟨h1, h2⟩
    · exact Or.inl ⟨i, h1, h2, by rw [h3], h4⟩
    · exact Or.inr ⟨Or.inr ⟨P, hP, rfl, h1⟩, h2⟩
theorem p_first_L (n : Nat) (s : cS) : ∀ (d fuel k : Nat), k + d = 102 → 1 ≤ k → d < fuel → (∀ j, 1 ≤ j → j < k → cB s n j = false) → (∃ i, 1 ≤ i ∧ k ≤ i ∧ i < 102 ∧ cB s n i = true ∧ (∀ j, 1 ≤ j → j < i → cB s n j = false) ∧ fX2_firstNumber_L2 n fuel (nI k) s = some (nI i, s)) ∨ ((∀ j, 1 ≤ j → j < 102 → cB s n j = false) ∧ fX2_firstNumber_L2 n fuel (nI k) s = some (-1, s)) := by
  intro d
  induction d with
  | zero =>
    intro fuel k h h1 hf hk
    obtain ⟨f, rfl⟩ : ∃ f, fuel = f + 1 := ⟨fuel - 1, by omega⟩
    have : k = 102 := by omega
    subst this
    right
    rw [fX2_firstNumber_L2, if_pos (show (102 : Int32) ≤ nI 102 from by decide)]
    exact ⟨hk, rfl⟩
  | succ d ih =>
    intro fuel k h h1 hf hk
    obtain ⟨f, rfl⟩ : ∃ f, fuel = f + 1 := ⟨fuel - 1, by omega⟩
    rw [fX2_firstNumber_L2, if_neg (ge_102 (by omega)), p_holds n s (by omega), if_bi, nI_1]
    cases c : cB s n k
    · rw [if_neg (fun z => Bool.noConfusion z)]
      rcases ih f (k + 1) (by omega) (by omega) (by omega) (fun j h1 h2 => if e : j = k then e ▸ c else hk j h1 (by omega)) with ⟨i, g1, h2, h3, h4, h5, h6⟩ | g
      · exact Or.inl ⟨i, g1, by omega, h3, h4, h5, h6⟩
      · exact Or.inr g
    · rw [if_pos rfl]
      exact Or.inl ⟨k, by omega, Nat.le_refl _, by omega, c, hk, rfl⟩
theorem p_firstNumber (n : Nat) (s : cS) : (∃ i, 1 ≤ i ∧ i < 102 ∧ cB s n i = true ∧ (∀ j, 1 ≤ j → j < i → cB s n j = false) ∧ fX2_firstNumber n s = some (nI i, s)) ∨ ((∀ j, 1 ≤ j → j < 102 → cB s n j = false) ∧ fX2_firstNumber n s = some (-1, s)) := by
  rcases p_first_L n s 101 1100 1 rfl (by decide) (by decide) (fun j h1 h2 => by omega) with ⟨i, h1, _, h3, h4, h5, h6⟩ | g
  · exact Or.inl ⟨i, h1, h3, h4, h5, h6⟩
  · exact Or.inr g
theorem p_last_L (n : Nat) (s : cS) : ∀ (k fuel : Nat), k < fuel → k < 102 → (∀ j, k < j → j < 102 → cB s n j = false) → (∃ i, 1 ≤ i ∧ i < 102 ∧ cB s n i = true ∧ (∀ j, i < j → j < 102 → cB s n j = false) ∧ fX2_lastNumber_L3 n fuel (nI k) s = some (nI i, s)) ∨ ((∀ j, 1 ≤ j → j < 102 → cB s n j = false) ∧ fX2_lastNumber_L3 n fuel (nI k) s = some (-1, s)) := by
  intro k
  induction k with
  | zero =>
    intro fuel hf h hk
    obtain ⟨f, rfl⟩ : ∃ f, fuel = f + 1 := ⟨fuel - 1, by omega⟩
    right
    rw [fX2_lastNumber_L3, if_pos (show nI 0 ≤ 0 from by decide)]
    exact ⟨fun j h1 h2 => hk j (by omega) h2, rfl⟩
  | succ k ih =>
    intro fuel hf h hk
    obtain ⟨f, rfl⟩ : ∃ f, fuel = f + 1 := ⟨fuel - 1, by omega⟩
    rw [fX2_lastNumber_L3, if_neg (nI_nle (by omega) (by omega)), p_holds n s h, if_bi, pk_m1]
    cases c : cB s n (k + 1)
    · rw [if_neg (fun z => Bool.noConfusion z)]
      exact ih f (by omega) (by omega) (fun j h1 h2 => if e : j = k + 1 then e ▸ c else hk j (by omega) h2)
    · rw [if_pos rfl]
      exact Or.inl ⟨k + 1, by omega, h, c, hk, rfl⟩
theorem p_lastNumber (n : Nat) (s : cS) : (∃ i, 1 ≤ i ∧ i < 102 ∧ cB s n i = true ∧ (∀ j, i < j → j < 102 → cB s n j = false) ∧ fX2_lastNumber n s = some (nI i, s)) ∨ ((∀ j, 1 ≤ j → j < 102 → cB s n j = false) ∧ fX2_lastNumber n s = some (-1, s)) := p_last_L n s 101 1100 (by decide) (by decide) (fun j h1 h2 => by omega)
/-! ===== the reference's rows ===== -/
theorem nb_bi (b : Bool) : vp_nar .boolean (bi b) = bi b := by cases b <;> decide
theorem nb_0 : vp_nar .boolean 0 = bi false := by decide
theorem nb_1 : vp_nar .boolean 1 = bi true := by decide
theorem bi_01 (b : Bool) : bi b = 0 ∨ bi b = 1 := by cases b <;> decide
theorem b_mR_vR (m : mS) (c k : Nat) (v : Int32) (r j : Nat) : mR (vR m c k v) r j = if r = c ∧ j = k then v else mR m r j := by
  unfold mR vR
  show va_up m.1 c (upd (m.1 c) k v) r j = _
  by_cases h : r = c
  · subst h
    rw [zu_at]
    by_cases e : j = k
    · subst e
      rw [pk_us, if_pos ⟨rfl, rfl⟩]
    · rw [pk_un e, if_neg (fun z => e z.2)]
  · rw [zu_ne _ h, if_neg (fun z => h z.1)]
theorem Vm_vR {m : mS} (V : Vm m) (c k : Nat) (b : Bool) : Vm (vR m c k (bi b)) := by
  intro r j
  rw [b_mR_vR]
  by_cases h : r = c ∧ j = k
  · rw [if_pos h]
    exact bi_01 b
  · rw [if_neg h]
    exact V r j
theorem mB_vR (m : mS) {c k : Nat} (hk : k < 102) (b : Bool) (r j : Nat) : mB (vR m c k (bi b)) r j = if r = c ∧ j = k then b else mB m r j := by
  unfold mB
  rw [b_mR_vR]
  by_cases h : r = c ∧ j = k
  · rw [if_pos h, if_pos h, h.2, decide_eq_true hk, Bool.true_and]
    cases b <;> decide
  · rw [if_neg h, if_neg h]
/-- a loop that writes one row, place by place, out of two rows -/
theorem row_loop (W : Nat → Int32 → mS → Option mS) (a b c : Nat) (G : Bool → Bool → Bool) (hend : ∀ f m, W (f + 1) (nI 102) m = some m) (hstep : ∀ f k m, k < 102 → Vm m → W (f + 1) (nI k) m = W f (nI (k + 1)) (vR m c k (bi (G (mB m a k) (mB m b k))))) {m : mS} (V : Vm m) : ∃ m', W 1100 0 m = some m' ∧ Vm m' ∧ mB m' = va_up (mB m) c (fun k => decide (k < 102) && G (mB m a k) (mB m b k)) ∧ m'.2 = m.2 := by
  have key : ∀ (d fuel k : Nat) (mk : mS), k + d = 102 → d < fuel → Vm mk → mk.2 = m.2 → (∀ r j, j < 102 → mB mk r j = if r = c ∧ j < k then G (mB m a j) (mB m b j) else mB m r j) → ∃ m', W fuel (nI k) mk = some m' ∧ Vm m' ∧ m'.2 = m.2 ∧ (∀ r j, j < 102 → mB m' r j = if r = c ∧ j < 102 then G (mB m a j) (mB m b j) else mB m r j) := by
    intro d
    induction d with
    | zero =>
      intro fuel k mk h hf V1 h2 h3
      obtain ⟨f, rfl⟩ : ∃ f, fuel = f + 1 := ⟨fuel - 1, by omega⟩
      have : k = 102 := by omega
      subst this
      exact ⟨mk, hend f mk, V1, h2, h3⟩
    | succ d ih =>
      intro fuel k mk h hf V1 h2 h3
      obtain ⟨f, rfl⟩ : ∃ f, fuel = f + 1 := ⟨fuel - 1, by omega⟩
      rw [hstep f k mk (by omega) V1]
      have ea : mB mk a k = mB m a k := by rw [h3 a k (by omega), if_neg (fun z => by omega)]
      have eb : mB mk b k = mB m b k := by rw [h3 b k (by omega), if_neg (fun z => by omega)]
      rw [ea, eb]
      refine ih f (k + 1) _ (by omega) (by omega) (Vm_vR V1 _ _ _) h2 (fun r j hj => ?_)
      rw [mB_vR mk (by omega), h3 r j hj]
      by_cases e : r = c
      · by_cases g : j = k
        · subst g
          rw [if_pos ⟨e, rfl⟩, if_pos ⟨e, by omega⟩]
        · rw [if_neg (fun z => g z.2)]
          by_cases l : j < k
          · rw [if_pos ⟨e, l⟩, if_pos ⟨e, by omega⟩]
          · rw [if_neg (fun z => l z.2), if_neg (fun z => by omega)]
      · rw [if_neg (fun z => e z.1), if_neg (fun z => e z.1), if_neg (fun z => e z.1)]
  obtain ⟨m', h1, h2, h3, h4⟩ := key 102 1100 0 m rfl (by decide) V rfl (fun r j _ => by rw [if_neg (fun z => by omega)])
  refine ⟨m', h1, h2, ?_, h3⟩
  funext r
  by_cases e : r = c
  · subst e
    rw [zu_at]
    funext k
    by_cases g : k < 102
    · rw [h4 r k g, if_pos ⟨rfl, g⟩, decide_eq_true g, Bool.true_and]
    · rw [mB_wf m' r k (by omega), decide_eq_false g, Bool.false_and]
  · rw [zu_ne _ e]
    funext k
    by_cases g : k < 102
    · rw [h4 r k g, if_neg (fun z => e z.1)]
    · rw [mB_wf m' r k (by omega), mB_wf m r k (by omega)]
theorem m_copies (a c : Nat) {m : mS} (V : Vm m) : ∃ m', fX8_copies a c m = some m' ∧ Vm m' ∧ mB m' = va_up (mB m) c (mB m a) ∧ m'.2 = m.2 := by
  obtain ⟨m', h1, h2, h3, h4⟩ := row_loop (fX8_copies_L2 a c) a a c (fun x _ => x) (fun f m => by rw [fX8_copies_L2, if_pos (show (102 : Int32) ≤ nI 102 from by decide)]) (fun f k m hk V => by
    rw [fX8_copies_L2, if_neg (ge_102 hk), if_pos (vinI hk (by decide)), if_pos (vinI hk (by decide)), nI_1, nI_clamp (by omega), mR_bi V hk, nb_bi]) V
  refine ⟨m', h1, h2, ?_, h4⟩
  rw [h3]
  refine congrArg (va_up (mB m) c) ?_
  funext k
  by_cases g : k < 102
  · rw [decide_eq_true g, Bool.true_and]
  · rw [mB_wf m a k (by omega), Bool.and_false]
theorem m_joins (a b : Nat) (how : Int32) (c : Nat) {m : mS} (V : Vm m) : ∃ m', fX8_joins a b how c m = some m' ∧ Vm m' ∧ mB m' = va_up (mB m) c (jn how (mB m a) (mB m b)) ∧ m'.2 = m.2 := by
  obtain ⟨m', h1, h2, h3, h4⟩ := row_loop (fX8_joins_L3 a b how c) a b c (fun x y => if how = 0 then x || y else if how = 1 then x && y else if how = 2 then x && !y else (x ^^ y)) (fun f m => by rw [fX8_joins_L3, if_pos (show (102 : Int32) ≤ nI 102 from by decide)]) (fun f k m hk V => by
    rw [fX8_joins_L3, if_neg (ge_102 hk), nI_1, nI_clamp (by omega), nb_0, nb_1]
    simp only [if_pos (vinI hk (show 102 < 2 ^ 31 from by decide)), mB_0 hk, mB_eq V hk]
    by_cases c0 : how = 0
    · rw [if_pos c0, if_pos c0]
      cases mB m a k <;> cases mB m b k <;> rfl
    rw [if_neg c0, if_neg c0]
    by_cases c1 : how = 1
    · rw [if_pos c1, if_pos c1]
      cases mB m a k <;> cases mB m b k <;> rfl
    rw [if_neg c1, if_neg c1]
    by_cases c2 : how = 2
    · rw [if_pos c2, if_pos c2]
      cases mB m a k <;> cases mB m b k <;> rfl
    rw [if_neg c2, if_neg c2]
    cases mB m a k <;> cases mB m b k <;> rfl) V
  refine ⟨m', h1, h2, ?_, h4⟩
  rw [h3]
  refine congrArg (va_up (mB m) c) ?_
  funext k
  by_cases g : k < 102
  · rw [decide_eq_true g, Bool.true_and]
    rfl
  · rw [decide_eq_false g, Bool.false_and]
    exact (jn_wf (mB_wf m a) (mB_wf m b) k (by omega)).symm
theorem m_sizeOf_L (a : Nat) (m : mS) : ∀ (d fuel k : Nat), k + d = 102 → d < fuel → fX8_sizeOf_L4 a fuel (nI (fb_ct (mB m a) k)) (nI k) m = some (nI (sz (mB m a)), m) := by
  intro d
  induction d with
  | zero =>
    intro fuel k h hf
    obtain ⟨f, rfl⟩ : ∃ f, fuel = f + 1 := ⟨fuel - 1, by omega⟩
    have : k = 102 := by omega
    subst this
    rw [fX8_sizeOf_L4, if_pos (show (102 : Int32) ≤ nI 102 from by decide)]
    rfl
  | succ d ih =>
    intro fuel k h hf
    obtain ⟨f, rfl⟩ : ∃ f, fuel = f + 1 := ⟨fuel - 1, by omega⟩
    have hk : k < 102 := by omega
    rw [fX8_sizeOf_L4, if_neg (ge_102 hk), if_pos (vinI hk (by decide)), nI_clamp (by omega), if_boolf (mB_0 hk), nI_1, nI_1, Int32.add_zero]
    have := ih f (k + 1) (by omega) (by omega)
    rw [ct_succ] at this
    cases c : mB m a k
    · rw [c] at this
      exact this
    · rw [c] at this
      exact this
theorem m_sizeOf (a : Nat) (m : mS) : fX8_sizeOf a m = some (nI (sz (mB m a)), m) := m_sizeOf_L a m 102 1100 0 rfl (by decide)
theorem memberOf_k : ∀ k, k < 102 → 0 < k → (if nI k = 0 then (100 : Int32) else nI k - 50 - 1) = nI k - 51 := by decide +kernel
theorem m_sumOf_L (a : Nat) (m : mS) : ∀ (d fuel j : Nat), j + 1 + d = 102 → d < fuel → fX8_sumOf_L4 a fuel (sumI (mB m a) j) (nI (j + 1)) m = some (sumI (mB m a) 101, m) := by
  intro d
  induction d with
  | zero =>
    intro fuel j h hf
    obtain ⟨f, rfl⟩ : ∃ f, fuel = f + 1 := ⟨fuel - 1, by omega⟩
    have : j = 101 := by omega
    subst this
    rw [fX8_sumOf_L4, if_pos (show (102 : Int32) ≤ nI (101 + 1) from by decide)]
  | succ d ih =>
    intro fuel j h hf
    obtain ⟨f, rfl⟩ : ∃ f, fuel = f + 1 := ⟨fuel - 1, by omega⟩
    have hk : j + 1 < 102 := by omega
    rw [fX8_sumOf_L4, if_neg (ge_102 hk), if_pos (vinI hk (by decide)), nI_clamp (by omega), if_boolf (mB_0 hk), nI_1 (j + 1), Int32.add_zero]
    have e : sumI (mB m a) (j + 1) = if mB m a (j + 1) then sumI (mB m a) j + (nI (j + 1) - 51) else sumI (mB m a) j := rfl
    have := ih f (j + 1) (by omega) (by omega)
    rw [e] at this
    have e2 : fX8_memberOf (nI (j + 1)) m = nI (j + 1) - 51 := memberOf_k (j + 1) hk (by omega)
    rw [e2]
    cases c : mB m a (j + 1)
    · rw [c] at this
      exact this
    · rw [c] at this
      exact this
theorem m_sumOf (a : Nat) (m : mS) : fX8_sumOf a m = some (sumI (mB m a) 101, m) := m_sumOf_L a m 101 1100 0 rfl (by decide)
theorem m_first_L (a b : Nat) {m : mS} (V : Vm m) : ∀ (d fuel k : Nat), k + d = 102 → d < fuel → (∀ j, j < k → mB m a j = mB m b j) → (∃ i, i < 102 ∧ mB m a i ≠ mB m b i ∧ (∀ j, j < i → mB m a j = mB m b j) ∧ fX8_firstOther_L2 a b fuel (nI k) m = some (nI i, m)) ∨ (mB m a = mB m b ∧ fX8_firstOther_L2 a b fuel (nI k) m = some (-1, m)) := by
  intro d
  induction d with
  | zero =>
    intro fuel k h hf hk
    obtain ⟨f, rfl⟩ : ∃ f, fuel = f + 1 := ⟨fuel - 1, by omega⟩
    have : k = 102 := by omega
    subst this
    right
    rw [fX8_firstOther_L2, if_pos (show (102 : Int32) ≤ nI 102 from by decide)]
    exact ⟨BS_ext (mB_wf m a) (mB_wf m b) hk, rfl⟩
  | succ d ih =>
    intro fuel k h hf hk
    obtain ⟨f, rfl⟩ : ∃ f, fuel = f + 1 := ⟨fuel - 1, by omega⟩
    have hk2 : k < 102 := by omega
    rw [fX8_firstOther_L2, if_neg (ge_102 hk2), if_pos (vinI hk2 (by decide)), if_pos (vinI hk2 (by decide)), nI_clamp (by omega), nI_1]
    by_cases e : mB m a k = mB m b k
    · rw [if_pos ((mB_eq V hk2).mpr e)]
      exact ih f (k + 1) (by omega) (by omega) (fun j hj => if g : j = k then g ▸ e else hk j (by omega))
    · rw [if_neg (fun z => e ((mB_eq V hk2).mp z))]
      exact Or.inl ⟨k, hk2, e, hk, rfl⟩
theorem m_firstOther (a b : Nat) {m : mS} (V : Vm m) : (∃ i, i < 102 ∧ mB m a i ≠ mB m b i ∧ (∀ j, j < i → mB m a j = mB m b j) ∧ fX8_firstOther a b m = some (nI i, m)) ∨ (mB m a = mB m b ∧ fX8_firstOther a b m = some (-1, m)) := m_first_L a b V 102 1100 0 rfl (by decide) (fun j hj => by omega)
theorem nI_m1 {k : Nat} (h : k < 2 ^ 31) : ¬ nI k = -1 := fun e => by
  have := congrArg Int32.toInt e
  rw [nI_toInt h] at this
  have e2 : (-1 : Int32).toInt = -1 := by decide
  omega
theorem m_areSame (a b : Nat) {m : mS} (V : Vm m) : fX8_areSame a b m = some (bi (same (mB m a) (mB m b)), m) := by
  unfold fX8_areSame
  rcases m_firstOther a b V with ⟨i, h1, h2, h3, h4⟩ | ⟨h1, h2⟩
  · rw [h4]
    show (if nI i = -1 then _ else _) = _
    rw [if_neg (nI_m1 (by omega)), ts_nt' (x := same (mB m a) (mB m b)) (fun z => h2 (by rw [pd_iff.mp z]))]
    rfl
  · rw [h2]
    show (if (-1 : Int32) = -1 then some ((1 : Int32), m) else some (0, m)) = _
    rw [if_pos rfl, show same (mB m a) (mB m b) = true from pd_iff.mpr h1]
    rfl
theorem m_isAhead (a b : Nat) {m : mS} (V : Vm m) : fX8_isAhead a b m = some (bi (ahead (mB m a) (mB m b)), m) := by
  unfold fX8_isAhead
  rcases m_firstOther a b V with ⟨i, h1, h2, h3, h4⟩ | ⟨h1, h2⟩
  · rw [h4]
    show (if nI i = -1 then _ else if vin (nI i) 102 = true then (if mR m a (nI i).toNatClampNeg = 0 then _ else _) else _) = _
    rw [if_neg (nI_m1 (by omega)), if_pos (vinI h1 (by decide)), nI_clamp (by omega), if_boolf (mB_0 h1)]
    cases c : mB m a i
    · rw [ts_nt' (x := ahead (mB m a) (mB m b)) (fun z => ?_)]
      · rfl
      · obtain ⟨k, q1, q2, q3⟩ := pd_iff.mp z
        rcases Nat.lt_trichotomy i k with g | g | g
        · exact h2 (q3 i g)
        · subst g
          rw [c] at q1
          exact Bool.noConfusion q1
        · have := h3 k g
          rw [q1, q2] at this
          exact Bool.noConfusion this
    · have : mB m b i = false := by
        revert h2
        rw [c]
        cases mB m b i <;> simp
      rw [show ahead (mB m a) (mB m b) = true from pd_iff.mpr ⟨i, c, this, h3⟩]
      rfl
  · rw [h2]
    simp only [Option.bind_some, if_true]
    rw [ts_nt' (x := ahead (mB m a) (mB m b)) (fun z => ?_)]
    · rfl
    · obtain ⟨k, q1, q2, q3⟩ := pd_iff.mp z
      rw [h1, q2] at q1
      exact Bool.noConfusion q1
theorem m_lies_L (a b : Nat) (m : mS) : ∀ (d fuel k : Nat), k + d = 102 → d < fuel → (∀ j, j < k → mB m a j = true → mB m b j = true) → fX8_lies_L2 a b fuel (nI k) m = some (bi (inn (mB m a) (mB m b)), m) := by
  intro d
  induction d with
  | zero =>
    intro fuel k h hf hk
    obtain ⟨f, rfl⟩ : ∃ f, fuel = f + 1 := ⟨fuel - 1, by omega⟩
    have : k = 102 := by omega
    subst this
    rw [fX8_lies_L2, if_pos (show (102 : Int32) ≤ nI 102 from by decide)]
    rw [show inn (mB m a) (mB m b) = true from pd_iff.mpr (fun j hj => by
      by_cases g : j < 102
      · exact hk j g hj
      · rw [mB_wf m a j (by omega)] at hj
        exact Bool.noConfusion hj)]
    rfl
  | succ d ih =>
    intro fuel k h hf hk
    obtain ⟨f, rfl⟩ : ∃ f, fuel = f + 1 := ⟨fuel - 1, by omega⟩
    have hk2 : k < 102 := by omega
    rw [fX8_lies_L2, if_neg (ge_102 hk2), if_pos (vinI hk2 (by decide)), if_pos (vinI hk2 (by decide)), nI_clamp (by omega), nI_1, if_boolf (mB_0 hk2), if_boolf (mB_0 hk2)]
    cases c : mB m a k
    · rw [if_neg (fun z => Bool.noConfusion z)]
      exact ih f (k + 1) (by omega) (by omega) (fun j hj hz => if g : j = k then (by rw [g, c] at hz; exact Bool.noConfusion hz) else hk j (by omega) hz)
    · rw [if_pos rfl]
      cases e : mB m b k
      · rw [if_neg (fun z => Bool.noConfusion z), ts_nt' (x := inn (mB m a) (mB m b)) (fun z => by
          have := pd_iff.mp z k c
          rw [e] at this
          exact Bool.noConfusion this)]
        rfl
      · rw [if_pos rfl]
        exact ih f (k + 1) (by omega) (by omega) (fun j hj hz => if g : j = k then g ▸ e else hk j (by omega) hz)
theorem m_lies (a b : Nat) (m : mS) : fX8_lies a b m = some (bi (inn (mB m a) (mB m b)), m) := m_lies_L a b m 102 1100 0 rfl (by decide) (fun j hj => by omega)
/-! ===== how a state of the class and a state of the reference belong together ===== -/
def RelF (a : cS) (m : mS) : Prop := ∃ c, c ≤ 7 ∧ sI a 0 = nI c ∧ mI m 1 = nI c ∧ ∀ j, j < c → cB a (8 + j) = mB m (9 + j)
def RelT (a : cS) (m : mS) : Prop := ∃ L, L ≤ 200 ∧ sI a 2 = nI L ∧ mI m 3 = nI L ∧ ∀ k, k < L → ∃ b, 0 < b ∧ b < 256 ∧ sT a k = nI b ∧ mT m k = nI b
def Rel (a : cS) (m : mS) : Prop := Wf a ∧ Vm m ∧ (∀ i, i < 8 → cB a i = mB m i) ∧ RelF a m ∧ RelT a m
/-- what one sees of the class's state is as before -/
def aeq (a a' : cS) : Prop := (∀ n, n < 15 → cB a' n = cB a n) ∧ sI a' 0 = sI a 0 ∧ sI a' 2 = sI a 2 ∧ sT a' = sT a
def meq (m m' : mS) : Prop := (∀ r, r < 16 → r ≠ 8 → mB m' r = mB m r) ∧ mI m' 1 = mI m 1 ∧ mI m' 3 = mI m 3 ∧ mT m' = mT m
theorem aeq_refl (a : cS) : aeq a a := ⟨fun _ _ => rfl, rfl, rfl, rfl⟩
theorem meq_refl (m : mS) : meq m m := ⟨fun _ _ _ => rfl, rfl, rfl, rfl⟩
theorem aeq_trans {a b c : cS} (h : aeq a b) (g : aeq b c) : aeq a c := ⟨fun n hn => (g.1 n hn).trans (h.1 n hn), g.2.1.trans h.2.1, g.2.2.1.trans h.2.2.1, g.2.2.2.trans h.2.2.2⟩
theorem meq_trans {a b c : mS} (h : meq a b) (g : meq b c) : meq a c := ⟨fun n hn h8 => (g.1 n hn h8).trans (h.1 n hn h8), g.2.1.trans h.2.1, g.2.2.1.trans h.2.2.1, g.2.2.2.trans h.2.2.2⟩
theorem Rel_keep {a a' : cS} {m m' : mS} (h : Rel a m) (ha : aeq a a') (hm : meq m m') (W : Wf a') (V : Vm m') : Rel a' m' := by
  obtain ⟨_, _, h1, ⟨c, hc, f1, f2, f3⟩, ⟨L, hL, t1, t2, t3⟩⟩ := h
  refine ⟨W, V, fun i hi => ?_, ⟨c, hc, ha.2.1.trans f1, hm.2.1.trans f2, fun j hj => ?_⟩, ⟨L, hL, ha.2.2.1.trans t1, hm.2.2.1.trans t2, fun k hk => ?_⟩⟩
  · rw [ha.1 i (by omega), hm.1 i (by omega) (by omega)]
    exact h1 i hi
  · rw [ha.1 (8 + j) (by omega), hm.1 (9 + j) (by omega) (by omega)]
    exact f3 j hj
  · rw [ha.2.2.2, hm.2.2.2]
    exact t3 k hk
theorem Rel_row {a a' : cS} {m m' : mS} (h : Rel a m) {i : Nat} (hi : i < 8) {x : BS} (hx : wfB x) (ha : cB a' = va_up (cB a) i x) (ha2 : a'.2.2 = a.2.2) (hm : ∀ r, r < 16 → r ≠ 8 → mB m' r = va_up (mB m) i x r) (hm1 : mI m' 1 = mI m 1) (hm3 : mI m' 3 = mI m 3) (hmT : mT m' = mT m) (V : Vm m') : Rel a' m' := by
  obtain ⟨W, _, h1, ⟨c, hc, f1, f2, f3⟩, ⟨L, hL, t1, t2, t3⟩⟩ := h
  have eI : sI a' = sI a := by unfold sI; rw [ha2]
  have eT : sT a' = sT a := by unfold sT; rw [ha2]
  refine ⟨?_, V, fun j hj => ?_, ⟨c, hc, by rw [eI]; exact f1, hm1.trans f2, fun j hj => ?_⟩, ⟨L, hL, by rw [eI]; exact t1, hm3.trans t2, fun k hk => ?_⟩⟩
  · intro n
    rw [ha]
    exact wfB_up W hx n
  · rw [ha, hm j (by omega) (by omega)]
    by_cases e : j = i
    · rw [e, zu_at, zu_at]
    · rw [zu_ne _ e, zu_ne _ e]
      exact h1 j hj
  · rw [ha, hm (9 + j) (by omega) (by omega), zu_ne _ (by omega), zu_ne _ (by omega)]
    exact f3 j hj
  · rw [eT, hmT]
    exact t3 k hk
theorem Wf_up {a a' : cS} (W : Wf a) {n : Nat} {x : BS} (hx : wfB x) (h : cB a' = va_up (cB a) n x) : Wf a' := by
  intro q
  rw [h]
  exact wfB_up W hx q
theorem aeq_up {a a' : cS} {n : Nat} {x : BS} (hn : 15 ≤ n) (h : cB a' = va_up (cB a) n x) (h2 : a'.2.2 = a.2.2) : aeq a a' := by
  refine ⟨fun q hq => ?_, ?_, ?_, ?_⟩
  · rw [h, zu_ne _ (by omega)]
  · unfold sI; rw [h2]
  · unfold sI; rw [h2]
  · unfold sT; rw [h2]
theorem meq_up {m m' : mS} {n : Nat} {x : BS} (hn : 16 ≤ n ∨ n = 8) (h : mB m' = va_up (mB m) n x) (h2 : m'.2 = m.2) : meq m m' := by
  refine ⟨fun q hq h8 => ?_, ?_, ?_, ?_⟩
  · rw [h, zu_ne _ (by omega)]
  · unfold mI; rw [h2]
  · unfold mI; rw [h2]
  · unfold mT; rw [h2]
/-! the word of the last call -/
theorem b_mI_vI (m : mS) (k : Nat) (v : Int32) (j : Nat) : mI (vI m k v) j = if j = k then v else mI m j := rfl
theorem mB_vI (m : mS) (k : Nat) (v : Int32) : mB (vI m k v) = mB m := rfl
theorem b_mT_vI (m : mS) (k : Nat) (v : Int32) : mT (vI m k v) = mT m := rfl
theorem b_mR_vI (m : mS) (k : Nat) (v : Int32) : mR (vI m k v) = mR m := rfl
theorem Vm_vI {m : mS} (V : Vm m) (k : Nat) (v : Int32) : Vm (vI m k v) := V
theorem meq_v0 (m : mS) (v : Int32) : meq m (vI m 0 v) := ⟨fun _ _ _ => rfl, rfl, rfl, rfl⟩
theorem pass_1 (q : Int32) (m : mS) : fX8_passes 0 q m = some (0, vI m 0 1) := rfl
theorem pass_2 (m : mS) : fX8_passes 1 0 m = some (0, vI m 0 2) := rfl
theorem pass_0 (m : mS) : fX8_passes 1 1 m = some (1, vI m 0 0) := rfl
/-- the two sides of a call: the same answer, or the exception of that number -/
def Meets (e1 e2 : Nat) (A : Option ((Nat × cS) ⊕ (Int32 × cS))) (B : Option (Int32 × mS)) : Prop :=
  (∃ r a' m', A = some (.inr (r, a')) ∧ B = some (r, m') ∧ mI m' 0 = 0 ∧ Rel a' m') ∨ (∃ r a' m', A = some (.inl (e1, a')) ∧ B = some (r, m') ∧ mI m' 0 = 1 ∧ Rel a' m') ∨ (∃ r a' m', A = some (.inl (e2, a')) ∧ B = some (r, m') ∧ mI m' 0 = 2 ∧ Rel a' m')
theorem Meets.ok {e1 e2 : Nat} {A : Option ((Nat × cS) ⊕ (Int32 × cS))} {B : Option (Int32 × mS)} {r : Int32} {a' : cS} {m' : mS} (hA : A = some (.inr (r, a'))) (hB : B = some (r, m')) (h0 : mI m' 0 = 0) (hR : Rel a' m') : Meets e1 e2 A B := Or.inl ⟨r, a', m', hA, hB, h0, hR⟩
theorem Meets.e1 {e1 e2 : Nat} {A : Option ((Nat × cS) ⊕ (Int32 × cS))} {B : Option (Int32 × mS)} {r : Int32} {a : cS} {m : mS} (h : Rel a m) (hA : A = some (.inl (e1, a))) (hB : B = some (r, vI m 0 1)) : Meets e1 e2 A B := Or.inr (Or.inl ⟨r, a, _, hA, hB, rfl, Rel_keep h (aeq_refl a) (meq_v0 m 1) h.1 h.2.1⟩)
theorem Meets.e2 {e1 e2 : Nat} {A : Option ((Nat × cS) ⊕ (Int32 × cS))} {B : Option (Int32 × mS)} {r : Int32} {a : cS} {m : mS} (h : Rel a m) (hA : A = some (.inl (e2, a))) (hB : B = some (r, vI m 0 2)) : Meets e1 e2 A B := Or.inr (Or.inr ⟨r, a, _, hA, hB, rfl, Rel_keep h (aeq_refl a) (meq_v0 m 2) h.1 h.2.1⟩)
/-- nothing but the word of the call changes -/
theorem Rel_v0 {a : cS} {m : mS} (h : Rel a m) (v : Int32) : Rel a (vI m 0 v) := Rel_keep h (aeq_refl a) (meq_v0 m v) h.1 h.2.1
/-! numbers of sets -/
theorem set_in {i : Nat} (h : i < 8) : (∀ s, fX7_setAt (nI i) s = some (.inr (i, s))) ∧ ∀ m, fX8_isSet (nI i) m = 1 := by
  constructor
  · intro s
    unfold fX7_setAt
    rw [if_neg (nI_pos (by omega)), if_pos (show nI i < 8 from nI_lt h (by decide)), if_pos (vinI h (by decide)), nI_clamp (by omega)]
  · intro m
    unfold fX8_isSet fX8_in
    rw [if_neg (nI_pos (by omega)), if_neg (show ¬ (7 : Int32) < nI i from nI_nlt (a := 7) (b := i) (by omega) (by decide))]
theorem lt_asymm' {x y : Int32} (h : x < y) : ¬ y < x := fun g => Int32.lt_irrefl (Int32.lt_trans h g)
theorem set_or (p : Int32) : (∃ i, i < 8 ∧ p = nI i) ∨ ((∀ s, fX7_setAt p s = some (.inl (1, s))) ∧ ∀ m, fX8_isSet p m = 0) := by
  by_cases h : p < 0
  · right
    constructor
    · intro s
      unfold fX7_setAt
      rw [if_pos h]
    · intro m
      unfold fX8_isSet fX8_in
      rw [if_pos h]
  · obtain ⟨i, hi, rfl⟩ := nI_of h
    by_cases g : i < 8
    · exact Or.inl ⟨i, g, rfl⟩
    · right
      constructor
      · intro s
        unfold fX7_setAt
        rw [if_neg h, if_neg (show ¬ nI i < 8 from nI_nlt (a := i) (b := 8) (by omega) hi)]
      · intro m
        unfold fX8_isSet fX8_in
        rw [if_neg h, if_pos (show (7 : Int32) < nI i from nI_lt (a := 7) (b := i) (by omega) hi)]
theorem lt8 {i : Nat} (h : i < 8) : i < 55 := by omega
/-! ranges -/
theorem rng (p lo hi : Int32) : ((∀ s, fX7_checkRange p lo hi s = some (.inr s)) ∧ (∀ m, fX8_in p lo hi m = 1) ∧ lo ≤ p ∧ p ≤ hi) ∨ ((∀ s, fX7_checkRange p lo hi s = some (.inl (2, s))) ∧ ∀ m, fX8_in p lo hi m = 0) := by
  by_cases h : p < lo
  · right
    exact ⟨fun s => by unfold fX7_checkRange; rw [if_pos h], fun m => by unfold fX8_in; rw [if_pos h]⟩
  · by_cases g : p ≤ hi
    · left
      refine ⟨fun s => by unfold fX7_checkRange; rw [if_neg h, if_pos g], fun m => ?_, Int32.not_lt.mp h, g⟩
      unfold fX8_in
      rw [if_neg h, if_neg (fun z => Int32.lt_irrefl (Int32.lt_of_le_of_lt g z))]
    · right
      refine ⟨fun s => by unfold fX7_checkRange; rw [if_neg h, if_neg g], fun m => ?_⟩
      unfold fX8_in
      rw [if_neg h, if_pos (Int32.not_le.mp g)]
/-! members -/
theorem num_k {p : Int32} (h1 : -50 ≤ p) (h2 : p ≤ 50) : ∃ k, 0 < k ∧ k < 102 ∧ p = nI k - 51 := by
  have a : -50 ≤ p.toInt := by
    have := Int32.le_iff_toInt_le.mp h1
    rwa [show (-50 : Int32).toInt = -50 from by decide] at this
  have b : p.toInt ≤ 50 := by
    have := Int32.le_iff_toInt_le.mp h2
    rwa [show (50 : Int32).toInt = 50 from by decide] at this
  refine ⟨(p.toInt + 51).toNat, by omega, by omega, ?_⟩
  apply Int32.toInt_inj.mp
  have := pk_sub_toInt (a := (p.toInt + 51).toNat) (b := 51) (by omega) (by decide)
  rw [show nI 51 = (51 : Int32) from rfl] at this
  rw [this]
  omega
theorem k_num : ∀ k, k < 102 → 0 < k → (-50 : Int32) ≤ nI k - 51 ∧ nI k - 51 ≤ 50 ∧ ¬ (nI k - 51) < -50 ∧ ¬ (50 : Int32) < nI k - 51 ∧ ¬ nI k - 51 = 100 ∧ nI k - 51 + 51 = nI k ∧ nI k - 51 + 50 + 1 = nI k := by decide +kernel
theorem mem_or (p : Int32) : (∃ k, k < 102 ∧ (∀ s, fX7_indexOfMember p s = some (.inr (nI k, s))) ∧ (∀ m, fX8_isMember p m = 1) ∧ ∀ m, fX8_placeOfMember p m = nI k) ∨ ((∀ s, fX7_indexOfMember p s = some (.inl (2, s))) ∧ ∀ m, fX8_isMember p m = 0) := by
  by_cases h : p = 100
  · subst h
    exact Or.inl ⟨0, by decide, fun s => rfl, fun m => rfl, fun m => rfl⟩
  · by_cases g : p < -50
    · right
      constructor
      · intro s
        unfold fX7_indexOfMember fX7_isNumber
        rw [if_neg h, if_pos g, if_pos rfl]
      · intro m
        unfold fX8_isMember fX8_in
        rw [if_neg h, if_pos g, if_pos rfl]
    · by_cases g2 : 50 < p
      · right
        constructor
        · intro s
          unfold fX7_indexOfMember fX7_isNumber
          rw [if_neg h, if_neg g, if_pos g2, if_pos rfl]
        · intro m
          unfold fX8_isMember fX8_in
          rw [if_neg h, if_neg g, if_pos g2, if_pos rfl]
      · left
        obtain ⟨k, k0, k1, rfl⟩ := num_k (Int32.not_lt.mp g) (Int32.not_lt.mp g2)
        have q := k_num k k1 k0
        refine ⟨k, k1, fun s => ?_, fun m => ?_, fun m => ?_⟩
        · unfold fX7_indexOfMember fX7_isNumber
          rw [if_neg h, if_neg g, if_neg g2, if_neg (by decide), q.2.2.2.2.2.1]
        · unfold fX8_isMember fX8_in
          rw [if_neg h, if_neg g, if_neg g2, if_neg (by decide)]
        · unfold fX8_placeOfMember
          rw [if_neg h, q.2.2.2.2.2.2]
