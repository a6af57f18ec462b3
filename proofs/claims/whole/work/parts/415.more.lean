/-! ===== views, walks, no collection at all ===== -/
theorem view_in {i : Nat} (h : i < 8) (s : cS) : fX7_viewAt (nI i) s = some (.inr (58 + i, s)) := by
  unfold fX7_viewAt
  rw [if_neg (nI_pos (by omega)), if_pos (show nI i < 8 from nI_lt h (by decide)), if_pos (vin8 h), cl8 h]
theorem view_out {p : Int32} (h : ∀ s, fX7_setAt p s = some (.inl (1, s))) (s : cS) : fX7_viewAt p s = some (.inl (1, s)) := by
  have := h s
  unfold fX7_setAt at this
  unfold fX7_viewAt
  by_cases a : p < 0
  · rw [if_pos a]
  · rw [if_neg a] at this ⊢
    by_cases b : p < 8
    · rw [if_pos b] at this
      split at this
      · exact nomatch this
      · exact nomatch this
    · rw [if_neg b]
theorem view_rng {i : Nat} (h : i < 8) : 58 ≤ 58 + i ∧ 58 + i < 66 := by omega
theorem g_viewHas {a : cS} {m : mS} (h : Rel a m) (p q : Int32) : Meets 1 2 (fX7_viewHas p q a) (fX8_viewHas p q m) := by
  have e : fX7_viewHas p q a = fX7_has p q a := by
    unfold fX7_viewHas fX7_has
    rcases set_or p with ⟨i, hi, rfl⟩ | ⟨s1, s2⟩
    · obtain ⟨s1, s2⟩ := set_in hi
      simp only [view_in hi, s1, Option.bind_some, Sum.elim_inr, if_pos (lt8 hi), if_pos (view_rng hi)]
      unfold fX5_shows
      rw [Nat.add_sub_cancel_left]
    · simp only [view_out s1, s1, Option.bind_some, Sum.elim_inl]
  unfold fX8_viewHas
  rw [bind_id, e]
  exact g_has h p q
/-! a walk -/
theorem step_L (t : Nat) (mm : Int32) (k0 : Int32 → kS → Option ((Nat × kS) ⊕ (Int32 × kS))) (k1 : kS → Option ((Nat × kS) ⊕ (Int32 × kS))) (s : kS) : ∀ (d fuel k : Nat), k + d = 102 → d < fuel → (∃ i, k ≤ i ∧ i < 102 ∧ cB s.1 t i = true ∧ (∀ j, k ≤ j → j < i → cB s.1 t j = false) ∧ fX6_step_L5 t mm k0 k1 fuel (nI k) s = k0 (nI i) s) ∨ ((∀ j, k ≤ j → j < 102 → cB s.1 t j = false) ∧ fX6_step_L5 t mm k0 k1 fuel (nI k) s = k1 s) := by
  intro d
  induction d with
  | zero =>
    intro fuel k h hf
    obtain ⟨f, rfl⟩ : ∃ f, fuel = f + 1 := ⟨fuel - 1, by omega⟩
    have : k = 102 := by omega
    subst this
    right
    rw [fX6_step_L5, if_pos (show (102 : Int32) ≤ nI 102 from by decide)]
    exact ⟨fun j h1 h2 => by omega, rfl⟩
  | succ d ih =>
    intro fuel k h hf
    obtain ⟨f, rfl⟩ : ∃ f, fuel = f + 1 := ⟨fuel - 1, by omega⟩
    have hk : k < 102 := by omega
    rw [fX6_step_L5, if_neg (ge_102 hk), p_holds t s.1 hk, if_bi, nI_1]
    cases c : cB s.1 t k
    · rcases ih f (k + 1) (by omega) (by omega) with ⟨i, h1, h2, h3, h4, h5⟩ | ⟨h1, h2⟩
      · exact Or.inl ⟨i, by omega, h2, h3, fun j a b => if e : j = k then e ▸ c else h4 j (by omega) b, h5⟩
      · exact Or.inr ⟨fun j a b => if e : j = k then e ▸ c else h1 j (by omega) b, h2⟩
    · exact Or.inl ⟨k, Nat.le_refl _, hk, c, fun j a b => by omega, rfl⟩
theorem ct_gap {x : BS} {k i : Nat} (h : k ≤ i) (hz : ∀ j, k ≤ j → j < i → x j = false) : fb_ct x i = fb_ct x k := by
  obtain ⟨d, rfl⟩ : ∃ d, i = k + d := ⟨i - k, by omega⟩
  rw [fb_ct_split, fb_ct_zero.mpr (fun j hj => hz (k + j) (by omega) (by omega)), Nat.add_zero]
/-- one step farther -/
theorem p_step (t : Nat) (mm : Int32) (a : cS) {k : Nat} (hk : k ≤ 102) (l : Int32) : (fb_ct (cB a t) k < sz (cB a t) ∧ ∃ i, k ≤ i ∧ i < 102 ∧ cB a t i = true ∧ fb_ct (cB a t) (i + 1) = fb_ct (cB a t) k + 1 ∧ fX6_step t mm (a, nI k, l) = some (.inr (nI i, (a, nI (i + 1), nI i)))) ∨ (fb_ct (cB a t) k = sz (cB a t) ∧ fX6_step t mm (a, nI k, l) = some (.inl (3, (a, nI k, l)))) := by
  unfold fX6_step
  rcases step_L t mm (fun y1_2 s2 => some (.inr (y1_2, (s2.1, y1_2 + 1, y1_2)))) (fun s3 => some (.inl (3, s3))) (a, nI k, l) (102 - k) 1100 k (by omega) (by omega) with ⟨i, h1, h2, h3, h4, h5⟩ | ⟨h1, h2⟩
  · left
    have e := ct_gap h1 h4
    have e2 : fb_ct (cB a t) (i + 1) = fb_ct (cB a t) k + 1 := by rw [ct_succ, if_pos h3]; exact congrArg (· + 1) e
    refine ⟨?_, i, h1, h2, h3, e2, ?_⟩
    · have := fb_ct_mono (cB a t) (show i + 1 ≤ 102 by omega)
      unfold sz
      omega
    · refine h5.trans ?_
      rw [nI_1]
  · right
    exact ⟨(ct_gap hk h1).symm, h2⟩
theorem walk_L (t : Nat) (a : cS) (k0 : kS → Option ((Nat × cS) ⊕ (cS))) : ∀ (d fuel j k : Nat) (l : Int32), j + d = sz (cB a t) → d + 1 < fuel → k ≤ 102 → fb_ct (cB a t) k = j → fX7_walkWrongly_L22 (nI (sz (cB a t))) t 1 k0 fuel (nI j) (a, nI k, l) = some (.inl (3, a)) := by
  have sl := sz_le (cB a t)
  intro d
  induction d with
  | zero =>
    intro fuel j k l h hf hk hj
    obtain ⟨f, rfl⟩ : ∃ f, fuel = f + 1 := ⟨fuel - 1, by omega⟩
    rw [fX7_walkWrongly_L22, if_neg (nI_nlt (by omega) (by omega))]
    rcases p_step t 1 a hk l with ⟨h1, _⟩ | ⟨h1, h2⟩
    · omega
    · rw [h2]
      rfl
  | succ d ih =>
    intro fuel j k l h hf hk hj
    obtain ⟨f, rfl⟩ : ∃ f, fuel = f + 1 := ⟨fuel - 1, by omega⟩
    rw [fX7_walkWrongly_L22, if_neg (nI_nlt (by omega) (by omega))]
    rcases p_step t 1 a hk l with ⟨h1, i, h2, h3, h4, h5, h6⟩ | ⟨h1, h2⟩
    · rw [h6]
      simp only [Option.bind_some, Sum.elim_inr, nI_1]
      exact ih f (j + 1) (i + 1) (nI i) (by omega) (by omega) (by omega) (by omega)
    · omega
theorem three_of {p : Int32} {n : Nat} {M : Int32} (hM : M.toInt = n) (h0 : 0 ≤ p) (h1 : p ≤ M) : ∃ j, j ≤ n ∧ p = nI j := nI_of2 hM (Int32.not_lt.mpr h0) h1
theorem p_walkWrongly {a : cS} (W : Wf a) {j : Nat} (hj : j ≤ 2) : ∃ a', Wf a' ∧ aeq a a' ∧ ((fX7_walkWrongly 24 (nI j) a = some (.inl (3, a')) ∧ (j = 0 ∨ j = 2 ∧ sz (cB a 24) = 0)) ∨ (fX7_walkWrongly 24 (nI j) a = some (.inl (4, a')) ∧ (j = 1 ∨ j = 2 ∧ sz (cB a 24) ≠ 0))) := by
  unfold fX7_walkWrongly
  rcases show j = 0 ∨ j = 1 ∨ j = 2 by omega with rfl | rfl | rfl
  · refine ⟨a, W, aeq_refl a, Or.inl ⟨?_, Or.inl rfl⟩⟩
    rw [if_pos (show nI 0 = 0 from rfl), p_count 24 a W]
    have sl := sz_le (cB a 24)
    exact walk_L 24 a _ (sz (cB a 24)) 1100 0 0 (-1) (by omega) (by omega) (by omega) rfl
  · refine ⟨a, W, aeq_refl a, Or.inr ⟨?_, Or.inl rfl⟩⟩
    rw [if_neg (show ¬ nI 1 = 0 by decide), if_pos (show nI 1 = 1 from rfl)]
    unfold fX6_takeOutLast
    rw [if_neg (show ¬ (1 : Int32) = 0 by decide), if_pos rfl]
    rfl
  · rw [if_neg (show ¬ nI 2 = 0 by decide), if_neg (show ¬ nI 2 = 1 by decide)]
    rcases p_step 24 1 a (k := 0) (by omega) (-1) with ⟨h1, i, h2, h3, h4, h5, h6⟩ | ⟨h1, h2⟩
    · have h6 : fX6_step 24 1 (a, 0, -1) = some (.inr (nI i, (a, nI (i + 1), nI i))) := h6
      obtain ⟨a1, e1, e2, e3⟩ := p_takeOut 24 a h3
      refine ⟨a1, Wf_up W (wf_set (W 24) h3 false) e2, aeq_up (by decide) e2 e3, Or.inr ⟨?_, Or.inr ⟨rfl, ?_⟩⟩⟩
      · rw [h6]
        unfold fX6_takeOutLast
        simp only [Option.bind_some, Sum.elim_inr, if_neg (show ¬ (1 : Int32) = 0 by decide), if_neg (nI_m1 (show i < 2 ^ 31 by omega)), e1, if_true, Sum.elim_inl]
      · have : fb_ct (cB a 24) 0 = 0 := rfl
        omega
    · have h2 : fX6_step 24 1 (a, 0, -1) = some (.inl (3, (a, 0, -1))) := h2
      refine ⟨a, W, aeq_refl a, Or.inl ⟨?_, Or.inr ⟨rfl, ?_⟩⟩⟩
      · rw [h2]
        rfl
      · have : fb_ct (cB a 24) 0 = 0 := rfl
        omega
theorem g_walkRefuses {a : cS} {m : mS} (h : Rel a m) (p q : Int32) : Meets 1 2 (fX7_walkRefuses p q a) (fX8_walkRefuses p q m) := by
  rcases set_or p with ⟨i, hi, rfl⟩ | ⟨s1, s2⟩
  · obtain ⟨s1, s2⟩ := set_in hi
    rcases rng q 0 2 with ⟨q1, q2, q3, q4⟩ | ⟨q1, q2⟩
    · obtain ⟨j, hj, rfl⟩ := three_of (n := 2) (by decide) q3 q4
      obtain ⟨b, e1, e2, e3⟩ := p_become 24 i a
      have Wb := Wf_up h.1 (h.1 i) e2
      have x24 : cB b 24 = cB a i := by rw [e2]; exact zu_at _ _ _
      obtain ⟨a', W', he, hw⟩ := p_walkWrongly Wb hj
      have hR : Rel a' (vI m 0 0) := Rel_keep h (aeq_trans (aeq_up (by decide) e2 e3) he) (meq_v0 m 0) W' h.2.1
      rw [x24] at hw
      have sl := sz_le (cB a i)
      have em : mB (vI m 0 0) i = cB a i := (h.2.2.1 i hi).symm
      rcases hw with ⟨w1, w2⟩ | ⟨w1, w2⟩
      · refine Meets.ok (r := 1) (a' := a') (m' := vI m 0 0) ?_ ?_ rfl hR
        · unfold fX7_walkRefuses
          simp only [s1, q1, Option.bind_some, Sum.elim_inr, Sum.elim_inl, if_pos (lt8 hi), e1, w1, if_true]
        · unfold fX8_walkRefuses
          simp only [s2, q2, pass_0, Option.bind_some, one_0]
          rcases w2 with rfl | ⟨rfl, w2⟩
          · rw [if_pos (show nI 0 = 0 from rfl)]
          · rw [if_neg (show ¬ nI 2 = 0 by decide), if_pos (show nI 2 = 2 from rfl), if_pos (vin8 hi), cl8 hi, m_sizeOf, em, w2]
            rfl
      · refine Meets.ok (r := 2) (a' := a') (m' := vI m 0 0) ?_ ?_ rfl hR
        · unfold fX7_walkRefuses
          simp only [s1, q1, Option.bind_some, Sum.elim_inr, Sum.elim_inl, if_pos (lt8 hi), e1, w1, if_true, if_neg (show ¬ 4 = 3 by decide)]
        · unfold fX8_walkRefuses
          simp only [s2, q2, pass_0, Option.bind_some, one_0]
          rcases w2 with rfl | ⟨rfl, w2⟩
          · rw [if_neg (show ¬ nI 1 = 0 by decide), if_neg (show ¬ nI 1 = 2 by decide)]
          · rw [if_neg (show ¬ nI 2 = 0 by decide), if_pos (show nI 2 = 2 from rfl), if_pos (vin8 hi), cl8 hi, m_sizeOf, em]
            simp only [Option.bind_some]
            rw [if_neg (fun z => w2 ((nI_eq0 (by omega)).mp z))]
    · refine Meets.e2' h ?_ ?_
      · unfold fX7_walkRefuses
        simp only [s1, q1, Option.bind_some, Sum.elim_inr, Sum.elim_inl, if_pos (lt8 hi)]
      · unfold fX8_walkRefuses
        simp only [s2, q2, if_true, pass_2, Option.bind_some]
  · refine Meets.e1 (r := 0) h ?_ ?_
    · unfold fX7_walkRefuses
      simp only [s1, Option.bind_some, Sum.elim_inl]
    · unfold fX8_walkRefuses
      simp only [s2, pass_1, Option.bind_some, if_true]
theorem p_without {n j : Nat} (hj : j ≤ 3) (a : cS) : fX7_isRefusedWithoutOther n (nI j) a = some (.inr (1, a)) := by
  unfold fX7_isRefusedWithoutOther fX2_combine_null fX2_holdsAll_null
  rcases show j = 0 ∨ j = 1 ∨ j = 2 ∨ j = 3 by omega with rfl | rfl | rfl | rfl <;> rfl
theorem g_nullRefuses {a : cS} {m : mS} (h : Rel a m) (p q : Int32) : Meets 1 2 (fX7_nullRefuses p q a) (fX8_nullRefuses p q m) := by
  unfold fX8_nullRefuses
  rw [bind_id]
  rcases set_or p with ⟨i, hi, rfl⟩ | ⟨s1, s2⟩
  · obtain ⟨s1, s2⟩ := set_in hi
    rcases rng q 0 3 with ⟨q1, q2, q3, q4⟩ | ⟨q1, q2⟩
    · obtain ⟨j, hj, rfl⟩ := three_of (n := 3) (by decide) q3 q4
      obtain ⟨b, e1, e2, e3⟩ := p_become 24 i a
      have Wb := Wf_up h.1 (h.1 i) e2
      have x24 : cB b 24 = cB a i := by rw [e2]; exact zu_at _ _ _
      have xi : cB b i = cB a i := by rw [e2]; exact zu_ne _ (by omega) _
      refine Meets.ok (r := 1) (a' := b) (m' := vI m 0 0) ?_ ?_ rfl (Rel_keep h (aeq_up (by decide) e2 e3) (meq_v0 m 0) Wb h.2.1)
      · unfold fX7_nullRefuses
        simp only [s1, q1, Option.bind_some, Sum.elim_inr, if_pos (lt8 hi), e1, p_without hj, one_0, p_sameAs, x24, xi, same_self, if_bi, if_true]
      · rw [s2, q2, pass_0]
    · refine Meets.e2' h ?_ ?_
      · unfold fX7_nullRefuses
        simp only [s1, q1, Option.bind_some, Sum.elim_inr, Sum.elim_inl, if_pos (lt8 hi)]
      · rw [s2, q2, pass_2]
  · refine Meets.e1 (r := 0) h ?_ ?_
    · unfold fX7_nullRefuses
      simp only [s1, Option.bind_some, Sum.elim_inl]
    · rw [s2, pass_1]
theorem p_byView {i j k : Nat} (hi : i < 8) (hj : j ≤ 6) (a : cS) (h6 : j = 6 → sz (cB a i) ≠ 0) : fX7_isRefusedByView (58 + i) (nI j) (nI k) a = some (.inr (1, a)) := by
  unfold fX7_isRefusedByView fX7_changeByView fX5_put fX5_takeOut fX5_combine fX5_empty
  have z := (set_in (i := 0) (by decide)).1 a
  have z : fX7_setAt 0 a = some (.inr (0, a)) := z
  rcases show j = 0 ∨ j = 1 ∨ j = 2 ∨ j = 3 ∨ j = 4 ∨ j = 5 ∨ j = 6 by omega with rfl | rfl | rfl | rfl | rfl | rfl | rfl
  · rfl
  · rfl
  · rw [if_neg (show ¬ nI 2 = 0 by decide), if_neg (show ¬ nI 2 = 1 by decide), if_pos (show nI 2 = 2 from rfl), z]
    rfl
  · rw [if_neg (show ¬ nI 3 = 0 by decide), if_neg (show ¬ nI 3 = 1 by decide), if_neg (show ¬ nI 3 = 2 by decide), if_pos (show nI 3 = 3 from rfl), z]
    rfl
  · rw [if_neg (show ¬ nI 4 = 0 by decide), if_neg (show ¬ nI 4 = 1 by decide), if_neg (show ¬ nI 4 = 2 by decide), if_neg (show ¬ nI 4 = 3 by decide), if_pos (show nI 4 = 4 from rfl), z]
    rfl
  · rfl
  · rw [if_neg (show ¬ nI 6 = 0 by decide), if_neg (show ¬ nI 6 = 1 by decide), if_neg (show ¬ nI 6 = 2 by decide), if_neg (show ¬ nI 6 = 3 by decide), if_neg (show ¬ nI 6 = 4 by decide), if_neg (show ¬ nI 6 = 5 by decide), Nat.add_sub_cancel_left]
    rcases p_step i 0 a (k := 0) (by omega) (-1) with ⟨h1, l, h2, h3, h4, h5, g6⟩ | ⟨h1, h2⟩
    · have g6 : fX6_step i 0 (a, 0, -1) = some (.inr (nI l, (a, nI (l + 1), nI l))) := g6
      rw [g6]
      unfold fX6_takeOutLast
      simp only [Option.bind_some, Sum.elim_inr, Sum.elim_inl, if_true]
    · have : fb_ct (cB a i) 0 = 0 := rfl
      exact absurd (by omega) (h6 rfl)
theorem nI_le0 {n : Nat} (h : n < 2 ^ 31) : nI n ≤ 0 ↔ n = 0 := nI_leI (b := 0) h (by decide) |>.trans (by omega)
theorem g_viewRefuses {a : cS} {m : mS} (h : Rel a m) (p q r : Int32) : Meets 1 2 (fX7_viewRefuses p q r a) (fX8_viewRefuses p q r m) := by
  rcases set_or p with ⟨i, hi, rfl⟩ | ⟨s1, s2⟩
  · obtain ⟨s1, s2⟩ := set_in hi
    have sl := sz_le (cB a i)
    have em : mB (vI m 0 0) i = cB a i := (h.2.2.1 i hi).symm
    rcases rng q 0 6 with ⟨q1, q2, q3, q4⟩ | ⟨q1, q2⟩
    · obtain ⟨j, hj, rfl⟩ := three_of (n := 6) (by decide) q3 q4
      rcases mem_or r with ⟨k, hk, r1, r2, r3⟩ | ⟨r1, r2⟩
      · by_cases e : j = 6 ∧ sz (cB a i) = 0
        · obtain ⟨rfl, e⟩ := e
          refine Meets.ok (r := 0) (a' := a) (m' := vI m 0 0) ?_ ?_ rfl (Rel_v0 h 0)
          · unfold fX7_viewRefuses
            simp only [s1, view_in hi, q1, r1, Option.bind_some, Sum.elim_inr, if_pos (lt8 hi), if_pos (view_rng hi), p_count i a h.1, e]
            rfl
          · unfold fX8_viewRefuses
            simp only [s2, q2, r2, one_0, pass_0, Option.bind_some, vin8 hi, cl8 hi, if_true, m_sizeOf, em, e]
            rfl
        · obtain ⟨b, e1, e2, e3⟩ := p_become 24 i a
          have Wb := Wf_up h.1 (h.1 i) e2
          have x24 : cB b 24 = cB a i := by rw [e2]; exact zu_at _ _ _
          have xi : cB b i = cB a i := by rw [e2]; exact zu_ne _ (by omega) _
          have bv := p_byView (i := i) (j := j) (k := k) hi hj b (fun z => by rw [xi]; exact fun z2 => e ⟨z, z2⟩)
          refine Meets.ok (r := 1) (a' := b) (m' := vI m 0 0) ?_ ?_ rfl (Rel_keep h (aeq_up (by decide) e2 e3) (meq_v0 m 0) Wb h.2.1)
          · unfold fX7_viewRefuses
            simp only [s1, view_in hi, q1, r1, Option.bind_some, Sum.elim_inr, if_pos (lt8 hi), if_pos (view_rng hi), p_count i a h.1]
            by_cases e6 : j = 6
            · subst e6
              rw [if_pos (show nI 6 = 6 from rfl), if_neg (fun z => e ⟨rfl, (nI_eq0 (by omega)).mp z⟩)]
              simp only [e1, Option.bind_some, bv, Sum.elim_inr, one_0, p_sameAs, x24, xi, same_self, if_bi, if_true]
            · rw [if_neg (show ¬ nI j = 6 from fun z => e6 ((nI_eq (b := 6) (by omega) (by decide)).mp z))]
              simp only [e1, Option.bind_some, bv, Sum.elim_inr, one_0, p_sameAs, x24, xi, same_self, if_bi, if_true]
          · unfold fX8_viewRefuses
            simp only [s2, q2, r2, one_0, pass_0, Option.bind_some]
            by_cases e6 : j = 6
            · subst e6
              rw [if_neg (show ¬ nI 6 < 6 by decide), if_pos (vin8 hi), cl8 hi, m_sizeOf, em]
              simp only [Option.bind_some]
              rw [if_neg (fun z => e ⟨rfl, (nI_le0 (by omega)).mp z⟩)]
            · rw [if_pos (show nI j < 6 from nI_lt (b := 6) (by omega) (by decide))]
      · refine Meets.e2' h ?_ ?_
        · unfold fX7_viewRefuses
          simp only [s1, view_in hi, q1, r1, Option.bind_some, Sum.elim_inr, Sum.elim_inl, if_pos (lt8 hi), if_pos (view_rng hi)]
        · unfold fX8_viewRefuses
          simp only [s2, q2, r2, one_0, if_true, pass_2, Option.bind_some]
    · refine Meets.e2' h ?_ ?_
      · unfold fX7_viewRefuses
        simp only [s1, view_in hi, q1, Option.bind_some, Sum.elim_inr, Sum.elim_inl, if_pos (lt8 hi), if_pos (view_rng hi)]
      · unfold fX8_viewRefuses
        simp only [s2, q2, if_true, pass_2, Option.bind_some]
  · refine Meets.e1 (r := 0) h ?_ ?_
    · unfold fX7_viewRefuses
      simp only [s1, Option.bind_some, Sum.elim_inl]
    · unfold fX8_viewRefuses
      simp only [s2, pass_1, Option.bind_some, if_true]
      split
      · rfl
      · split <;> rfl
/-! ===== lawErrors: no law fails, on either side ===== -/
theorem jn_com {how : Int32} (h : how = 0 ∨ how = 1) (x y : BS) : jn how x y = jn how y x := by
  rcases h with rfl | rfl
  · funext k; exact Bool.or_comm _ _
  · funext k; exact Bool.and_comm _ _
theorem jn_assoc {how : Int32} (h : how = 0 ∨ how = 1) (x y z : BS) : jn how (jn how x y) z = jn how x (jn how y z) := by
  rcases h with rfl | rfl
  · funext k; exact Bool.or_assoc _ _ _
  · funext k; exact Bool.and_assoc _ _ _
theorem jn_idem {how : Int32} (h : how = 0 ∨ how = 1) (x : BS) : jn how x x = x := by
  rcases h with rfl | rfl
  · funext k; exact Bool.or_self _
  · funext k; exact Bool.and_self _
/-- x o (y i z) is (x o y) i (x o z) -/
theorem jn_dist {i o : Int32} (h : i = 0 ∧ o = 1 ∨ i = 1 ∧ o = 0) (x y z : BS) : jn o x (jn i y z) = jn i (jn o x y) (jn o x z) := by
  rcases h with ⟨rfl, rfl⟩ | ⟨rfl, rfl⟩
  · funext k; show (x k && (y k || z k)) = (x k && y k || x k && z k); cases x k <;> cases y k <;> cases z k <;> rfl
  · funext k; show (x k || (y k && z k)) = ((x k || y k) && (x k || z k)); cases x k <;> cases y k <;> cases z k <;> rfl
/-- x - (y i z) is (x - y) t (x - z) -/
theorem jn_dm {i t : Int32} (h : i = 0 ∧ t = 1 ∨ i = 1 ∧ t = 0) (x y z : BS) : jn 2 x (jn i y z) = jn t (jn 2 x y) (jn 2 x z) := by
  rcases h with ⟨rfl, rfl⟩ | ⟨rfl, rfl⟩
  · funext k; show (x k && !(y k || z k)) = ((x k && !y k) && (x k && !z k)); cases x k <;> cases y k <;> cases z k <;> rfl
  · funext k; show (x k && !(y k && z k)) = ((x k && !y k) || (x k && !z k)); cases x k <;> cases y k <;> cases z k <;> rfl
theorem inn_or (x y : BS) : inn x y = same (jn 0 x y) y := pd_congr ⟨fun h => funext fun k => by
  show (x k || y k) = y k
  cases hx : x k
  · rfl
  · rw [h k hx]; rfl, fun h k hx => by
  have := congrFun h k
  rw [← this]
  show (x k || y k) = true
  rw [hx]; rfl⟩
theorem inn_and (x y : BS) : inn x y = same (jn 1 x y) x := pd_congr ⟨fun h => funext fun k => by
  show (x k && y k) = x k
  cases hx : x k
  · rfl
  · rw [h k hx]; rfl, fun h k hx => by
  have := congrFun h k
  have t : (x k && y k) = x k := this
  rw [hx] at t
  simpa using t⟩
theorem inn_dif {x y : BS} (hx : wfB x) : inn x y = true ↔ sz (jn 2 x y) = 0 := by
  have w : wfB (jn 2 x y) := fun k hk => by show (x k && !y k) = false; rw [hx k hk]; rfl
  rw [sz_0 w]
  unfold inn
  rw [pd_iff]
  exact forall_congr' fun k => by show _ ↔ (x k && !y k) = false; cases x k <;> cases y k <;> decide
theorem incl_excl (x y z : BS) : ∀ n, fb_ct (jn 0 (jn 0 x y) z) n + fb_ct (jn 1 x y) n + fb_ct (jn 1 x z) n + fb_ct (jn 1 y z) n = fb_ct x n + fb_ct y n + fb_ct z n + fb_ct (jn 1 (jn 1 x y) z) n
  | 0 => rfl
  | n + 1 => by
    have ih := incl_excl x y z n
    simp only [fb_ct_succ]
    have e1 : jn 0 (jn 0 x y) z n = (x n || y n || z n) := rfl
    have e2 : jn 1 x y n = (x n && y n) := rfl
    have e3 : jn 1 x z n = (x n && z n) := rfl
    have e4 : jn 1 y z n = (y n && z n) := rfl
    have e5 : jn 1 (jn 1 x y) z n = (x n && y n && z n) := rfl
    rw [e1, e2, e3, e4, e5]
    cases x n <;> cases y n <;> cases z n <;> simp <;> omega
theorem ie_sz (x y z : BS) : sz (jn 0 (jn 0 x y) z) + sz (jn 1 x y) + sz (jn 1 x z) + sz (jn 1 y z) = sz x + sz y + sz z + sz (jn 1 (jn 1 x y) z) := incl_excl x y z 102
theorem meet_le (x y z : BS) : sz (jn 1 (jn 1 x y) z) ≤ sz (jn 0 (jn 0 x y) z) := fb_ct_sub fun k _ h => by
  have h : (x k && y k && z k) = true := h
  show (x k || y k || z k) = true
  revert h
  cases x k <;> cases y k <;> cases z k <;> decide
theorem meet_le1 (x y : BS) : sz (jn 1 x y) ≤ sz x := fb_ct_sub fun k _ h => by
  have h : (x k && y k) = true := h
  revert h
  cases x k <;> cases y k <;> decide
/-! the class's side -/
def clf (s s' : cS) : Prop := Wf s' ∧ s'.2.2 = s.2.2 ∧ ∀ n, n < 52 → cB s' n = cB s n
theorem clf_refl {s : cS} (W : Wf s) : clf s s := ⟨W, rfl, fun _ _ => rfl⟩
theorem clf_trans {a b c : cS} (h : clf a b) (g : clf b c) : clf a c := ⟨g.1, g.2.1.trans h.2.1, fun n hn => (g.2.2 n hn).trans (h.2.2 n hn)⟩
theorem c_mk {n : Nat} (how : Int32) {x y : Nat} (hn : 52 ≤ n) (h : n ≠ y) {s : cS} (W : Wf s) : ∃ s', fX1_make n how x y s = some s' ∧ clf s s' ∧ cB s' n = jn how (cB s x) (cB s y) ∧ ∀ q, q ≠ n → cB s' q = cB s q := by
  obtain ⟨s1, e1, e2, e3⟩ := p_become n x s
  obtain ⟨s2, g1, g2, g3⟩ := p_combine n how y s1
  have a1 : cB s1 n = cB s x := by rw [e2]; exact zu_at _ _ _
  have a2 : ∀ q, q ≠ n → cB s1 q = cB s q := fun q hq => by rw [e2]; exact zu_ne _ hq _
  rw [a1, a2 y (Ne.symm h)] at g2
  have b1 : cB s2 n = jn how (cB s x) (cB s y) := by rw [g2]; exact zu_at _ _ _
  have b2 : ∀ q, q ≠ n → cB s2 q = cB s q := fun q hq => by rw [g2]; exact (zu_ne _ hq _).trans (a2 q hq)
  refine ⟨s2, ?_, ⟨Wf_up (Wf_up W (W x) e2) (jn_wf (W x) (W y)) g2, g3.trans e3, fun q hq => b2 q (by omega)⟩, b1, b2⟩
  unfold fX1_make
  rw [e1]
  simp only [Option.bind_some, g1]
theorem c_cmb {n : Nat} (how : Int32) {y : Nat} (hn : 52 ≤ n) {s : cS} (W : Wf s) : ∃ r s', fX2_combine n how y s = some (r, s') ∧ clf s s' ∧ cB s' n = jn how (cB s n) (cB s y) ∧ ∀ q, q ≠ n → cB s' q = cB s q := by
  obtain ⟨s2, g1, g2, g3⟩ := p_combine n how y s
  have b2 : ∀ q, q ≠ n → cB s2 q = cB s q := fun q hq => by rw [g2]; exact zu_ne _ hq _
  exact ⟨_, s2, g1, ⟨Wf_up W (jn_wf (W n) (W y)) g2, g3, fun q hq => b2 q (by omega)⟩, by rw [g2]; exact zu_at _ _ _, b2⟩
theorem sides_0 {s : cS} (h : cB s 52 = cB s 53) : fX1_sidesDiffer s = 0 := by
  unfold fX1_sidesDiffer
  rw [p_sameAs, h, same_self]
  rfl
theorem c_order {how : Int32} (hh : how = 0 ∨ how = 1) {a b : Nat} (ha : a < 52) (hb : b < 52) {s : cS} (W : Wf s) : ∃ s', fX1_orderErrors how a b s = some (0, s') ∧ clf s s' := by
  obtain ⟨s1, e1, e2, e3, e4⟩ := c_mk (n := 52) how (x := a) (y := b) (by omega) (by omega) W
  obtain ⟨s2, f1, f2, f3, f4⟩ := c_mk (n := 53) how (x := b) (y := a) (by omega) (by omega) e2.1
  refine ⟨s2, ?_, clf_trans e2 f2⟩
  unfold fX1_orderErrors
  rw [e1]
  simp only [Option.bind_some, f1]
  rw [sides_0 (by rw [f4 52 (by omega), e3, f3, e4 b (by omega), e4 a (by omega)]; exact jn_com hh _ _)]
theorem c_bracket {how : Int32} (hh : how = 0 ∨ how = 1) {a b c : Nat} (ha : a < 52) (hb : b < 52) (hc : c < 52) {s : cS} (W : Wf s) : ∃ s', fX1_bracketErrors how a b c s = some (0, s') ∧ clf s s' := by
  obtain ⟨s1, e1, e2, e3, e4⟩ := c_mk (n := 52) how (x := a) (y := b) (by omega) (by omega) W
  obtain ⟨r, s2, f1, f2, f3, f4⟩ := c_cmb (n := 52) how (y := c) (by omega) e2.1
  obtain ⟨s3, g1, g2, g3, g4⟩ := c_mk (n := 54) how (x := b) (y := c) (by omega) (by omega) f2.1
  obtain ⟨s4, h1, h2, h3, h4⟩ := c_mk (n := 53) how (x := a) (y := 54) (by omega) (by omega) g2.1
  refine ⟨s4, ?_, clf_trans e2 (clf_trans f2 (clf_trans g2 h2))⟩
  unfold fX1_bracketErrors
  rw [e1]
  simp only [Option.bind_some, f1, g1, h1]
  rw [sides_0 (by
    rw [h4 52 (by omega), g4 52 (by omega), f3, e3, e4 c (by omega), h3, g4 a (by omega), f4 a (by omega), e4 a (by omega), g3, f4 b (by omega), f4 c (by omega), e4 b (by omega), e4 c (by omega)]
    exact jn_assoc hh _ _ _)]
theorem c_itself {a : Nat} (ha : a < 52) {s : cS} (W : Wf s) : ∃ s', fX1_itselfErrors a s = some (0, s') ∧ clf s s' := by
  obtain ⟨s1, e1, e2, e3, e4⟩ := c_mk (n := 52) 0 (x := a) (y := a) (by omega) (by omega) W
  obtain ⟨s2, f1, f2, f3, f4⟩ := c_mk (n := 53) 1 (x := a) (y := a) (by omega) (by omega) e2.1
  obtain ⟨s3, g1, g2, g3, g4⟩ := c_mk (n := 54) 2 (x := a) (y := a) (by omega) (by omega) f2.1
  have xa : cB s3 a = cB s a := by rw [g4 a (by omega), f4 a (by omega), e4 a (by omega)]
  have x52 : cB s3 52 = cB s a := by rw [g4 52 (by omega), f4 52 (by omega), e3]; exact jn_idem (Or.inl rfl) _
  have x53 : cB s3 53 = cB s a := by rw [g4 53 (by omega), f3, e4 a (by omega)]; exact jn_idem (Or.inr rfl) _
  have x54 : cB s3 54 = fun _ => false := by rw [g3]; exact jn2_self _
  have ct : fX2_count 54 s3 = 0 := by
    rw [p_count 54 s3 g2.1, x54, show sz (fun _ => false) = 0 from (sz_0 wf_0).mpr (fun _ => rfl)]
    rfl
  refine ⟨s3, ?_, clf_trans e2 (clf_trans f2 g2)⟩
  unfold fX1_itselfErrors
  rw [e1]
  simp only [Option.bind_some, f1, g1, p_sameAs, x52, x53, xa, same_self, ct, if_bi, if_true]
  rfl
theorem c_part {i o : Int32} (hh : i = 0 ∧ o = 1 ∨ i = 1 ∧ o = 0) {a b c : Nat} (ha : a < 52) (hb : b < 52) (hc : c < 52) {s : cS} (W : Wf s) : ∃ s', fX1_partErrors i o a b c s = some (0, s') ∧ clf s s' := by
  obtain ⟨s1, e1, e2, e3, e4⟩ := c_mk (n := 54) i (x := b) (y := c) (by omega) (by omega) W
  obtain ⟨s2, f1, f2, f3, f4⟩ := c_mk (n := 52) o (x := a) (y := 54) (by omega) (by omega) e2.1
  obtain ⟨s3, g1, g2, g3, g4⟩ := c_mk (n := 54) o (x := a) (y := c) (by omega) (by omega) f2.1
  obtain ⟨s4, h1, h2, h3, h4⟩ := c_mk (n := 53) o (x := a) (y := b) (by omega) (by omega) g2.1
  obtain ⟨r, s5, k1, k2, k3, k4⟩ := c_cmb (n := 53) i (y := 54) (by omega) h2.1
  refine ⟨s5, ?_, clf_trans e2 (clf_trans f2 (clf_trans g2 (clf_trans h2 k2)))⟩
  unfold fX1_partErrors
  rw [e1]
  simp only [Option.bind_some, f1, g1, h1, k1]
  rw [sides_0 (by
    rw [k4 52 (by omega), h4 52 (by omega), g4 52 (by omega), f3, e4 a (by omega), e3, k3, h3, h4 54 (by omega), g3, g4 a (by omega), g4 b (by omega), f4 a (by omega), f4 b (by omega), f4 c (by omega), e4 a (by omega), e4 b (by omega), e4 c (by omega)]
    exact jn_dist hh _ _ _)]
theorem c_without {i t : Int32} (hh : i = 0 ∧ t = 1 ∨ i = 1 ∧ t = 0) {a b c : Nat} (ha : a < 52) (hb : b < 52) (hc : c < 52) {s : cS} (W : Wf s) : ∃ s', fX1_withoutErrors i t a b c s = some (0, s') ∧ clf s s' := by
  obtain ⟨s1, e1, e2, e3, e4⟩ := c_mk (n := 54) i (x := b) (y := c) (by omega) (by omega) W
  obtain ⟨s2, f1, f2, f3, f4⟩ := c_mk (n := 52) 2 (x := a) (y := 54) (by omega) (by omega) e2.1
  obtain ⟨s3, g1, g2, g3, g4⟩ := c_mk (n := 54) 2 (x := a) (y := c) (by omega) (by omega) f2.1
  obtain ⟨s4, h1, h2, h3, h4⟩ := c_mk (n := 53) 2 (x := a) (y := b) (by omega) (by omega) g2.1
  obtain ⟨r, s5, k1, k2, k3, k4⟩ := c_cmb (n := 53) t (y := 54) (by omega) h2.1
  refine ⟨s5, ?_, clf_trans e2 (clf_trans f2 (clf_trans g2 (clf_trans h2 k2)))⟩
  unfold fX1_withoutErrors
  rw [e1]
  simp only [Option.bind_some, f1, g1, h1, k1]
  rw [sides_0 (by
    rw [k4 52 (by omega), h4 52 (by omega), g4 52 (by omega), f3, e4 a (by omega), e3, k3, h3, h4 54 (by omega), g3, g4 a (by omega), g4 b (by omega), f4 a (by omega), f4 b (by omega), f4 c (by omega), e4 a (by omega), e4 b (by omega), e4 c (by omega)]
    exact jn_dm hh _ _ _)]
theorem c_within {a b : Nat} (ha : a < 52) (hb : b < 52) {s : cS} (W : Wf s) : ∃ s', fX1_withinErrors a b s = some (0, s') ∧ clf s s' := by
  obtain ⟨s2, e1, e2, e3, e4⟩ := c_mk (n := 52) 0 (x := a) (y := b) (by omega) (by omega) W
  obtain ⟨s3, f1, f2, f3, f4⟩ := c_mk (n := 53) 1 (x := a) (y := b) (by omega) (by omega) e2.1
  obtain ⟨s4, g1, g2, g3, g4⟩ := c_mk (n := 54) 2 (x := a) (y := b) (by omega) (by omega) f2.1
  have xa : cB s4 a = cB s a := by rw [g4 a (by omega), f4 a (by omega), e4 a (by omega)]
  have xb : cB s4 b = cB s b := by rw [g4 b (by omega), f4 b (by omega), e4 b (by omega)]
  have x52 : cB s4 52 = jn 0 (cB s a) (cB s b) := by rw [g4 52 (by omega), f4 52 (by omega), e3]
  have x53 : cB s4 53 = jn 1 (cB s a) (cB s b) := by rw [g4 53 (by omega), f3, e4 a (by omega), e4 b (by omega)]
  have x54 : cB s4 54 = jn 2 (cB s a) (cB s b) := by rw [g3, f4 a (by omega), f4 b (by omega), e4 a (by omega), e4 b (by omega)]
  have sl := sz_le (jn 2 (cB s a) (cB s b))
  refine ⟨s4, ?_, clf_trans e2 (clf_trans f2 g2)⟩
  unfold fX1_withinErrors
  rw [e1]
  simp only [Option.bind_some, f1, g1, p_sameAs, p_holdsAll, p_count 54 s4 g2.1, x52, x53, x54, xa, xb]
  rw [← inn_or, ← inn_and, if_pos rfl, if_pos rfl]
  have k := inn_dif (y := cB s b) (W a)
  cases e : inn (cB s a) (cB s b)
  · rw [e] at k
    rw [if_neg (fun z => Bool.noConfusion (k.mpr ((nI_eq0 (by omega)).mp z))), if_pos (show bi false = 0 from rfl)]
    rfl
  · rw [e] at k
    rw [k.mp rfl, if_pos (show nI 0 = 0 from rfl), if_pos (show bi true = 1 from rfl)]
    rfl
theorem size_id {A B C AB ABC AC BC U : Nat} (h : U + AB + AC + BC = A + B + C + ABC) (h1 : AB ≤ A) : nI U = nI A + nI B + nI C - nI AB + nI ABC - nI AC - nI BC := by
  rw [nI_add, nI_add, pk_sub (by omega), nI_add, pk_sub (by omega), pk_sub (by omega)]
  congr 1
  omega
theorem size_id2 {A B C AB ABC AC BC U : Nat} (h : U + AB + AC + BC = A + B + C + ABC) (h1 : ABC ≤ U) : nI U = nI A + nI B + nI C - nI AB - nI AC - nI BC + nI ABC := by
  rw [nI_add, nI_add, pk_sub (by omega), pk_sub (by omega), pk_sub (by omega), nI_add]
  congr 1
  omega
theorem c_size {a b c : Nat} (ha : a < 52) (hb : b < 52) (hc : c < 52) {s : cS} (W : Wf s) : ∃ s', fX1_sizeErrors a b c s = some (0, s') ∧ clf s s' := by
  obtain ⟨s1, e1, e2, e3, e4⟩ := c_mk (n := 52) 0 (x := a) (y := b) (by omega) (by omega) W
  obtain ⟨r, s2, f1, f2, f3, f4⟩ := c_cmb (n := 52) 0 (y := c) (by omega) e2.1
  obtain ⟨s3, g1, g2, g3, g4⟩ := c_mk (n := 53) 1 (x := a) (y := b) (by omega) (by omega) f2.1
  obtain ⟨r8, s8, h1, h2, h3, h4⟩ := c_cmb (n := 53) 1 (y := c) (by omega) g2.1
  obtain ⟨s10, k1, k2, k3, k4⟩ := c_mk (n := 53) 1 (x := a) (y := c) (by omega) (by omega) h2.1
  obtain ⟨s12, l1, l2, l3, l4⟩ := c_mk (n := 53) 1 (x := b) (y := c) (by omega) (by omega) k2.1
  have q2 : ∀ n, n < 52 → cB s2 n = cB s n := fun n hn => by rw [f4 n (by omega), e4 n (by omega)]
  have q3 : ∀ n, n < 52 → cB s3 n = cB s n := fun n hn => by rw [g4 n (by omega), q2 n hn]
  have q8 : ∀ n, n < 52 → cB s8 n = cB s n := fun n hn => by rw [h4 n (by omega), q3 n hn]
  have q10 : ∀ n, n < 52 → cB s10 n = cB s n := fun n hn => by rw [k4 n (by omega), q8 n hn]
  have y52 : cB s12 52 = jn 0 (jn 0 (cB s a) (cB s b)) (cB s c) := by
    rw [l4 52 (by omega), k4 52 (by omega), h4 52 (by omega), g4 52 (by omega), f3, e3, e4 c (by omega)]
  have y3 : cB s3 53 = jn 1 (cB s a) (cB s b) := by rw [g3, q2 a ha, q2 b hb]
  have y8 : cB s8 53 = jn 1 (jn 1 (cB s a) (cB s b)) (cB s c) := by rw [h3, y3, q3 c hc]
  have y10 : cB s10 53 = jn 1 (cB s a) (cB s c) := by rw [k3, q8 a ha, q8 c hc]
  have y12 : cB s12 53 = jn 1 (cB s b) (cB s c) := by rw [l3, q10 b hb, q10 c hc]
  refine ⟨s12, ?_, clf_trans e2 (clf_trans f2 (clf_trans g2 (clf_trans h2 (clf_trans k2 l2))))⟩
  unfold fX1_sizeErrors
  rw [e1]
  simp only [Option.bind_some, f1, g1, h1, k1, l1]
  rw [p_count 52 s12 l2.1, p_count a s3 g2.1, p_count b s3 g2.1, p_count c s3 g2.1, p_count 53 s3 g2.1, p_count 53 s8 h2.1, p_count 53 s10 k2.1, p_count 53 s12 l2.1, y52, y3, y8, y10, y12, q3 a ha, q3 b hb, q3 c hc]
  rw [if_pos (size_id (ie_sz (cB s a) (cB s b) (cB s c)) (meet_le1 _ _))]
theorem c_errors {a b c : Nat} (ha : a < 52) (hb : b < 52) (hc : c < 52) {s : cS} (W : Wf s) : ∃ s', fX1_errorsOf a b c s = some (0, s') ∧ clf s s' := by
  obtain ⟨s1, e1, e1'⟩ := c_order (how := 0) (Or.inl rfl) ha hb W
  obtain ⟨s2, e2, e2'⟩ := c_order (how := 1) (Or.inr rfl) ha hb e1'.1
  obtain ⟨s3, e3, e3'⟩ := c_bracket (how := 0) (Or.inl rfl) ha hb hc e2'.1
  obtain ⟨s4, e4, e4'⟩ := c_bracket (how := 1) (Or.inr rfl) ha hb hc e3'.1
  obtain ⟨s5, e5, e5'⟩ := c_itself ha e4'.1
  obtain ⟨s6, e6, e6'⟩ := c_part (i := 0) (o := 1) (Or.inl ⟨rfl, rfl⟩) ha hb hc e5'.1
  obtain ⟨s7, e7, e7'⟩ := c_part (i := 1) (o := 0) (Or.inr ⟨rfl, rfl⟩) ha hb hc e6'.1
  obtain ⟨s8, e8, e8'⟩ := c_without (i := 0) (t := 1) (Or.inl ⟨rfl, rfl⟩) ha hb hc e7'.1
  obtain ⟨s9, e9, e9'⟩ := c_without (i := 1) (t := 0) (Or.inr ⟨rfl, rfl⟩) ha hb hc e8'.1
  obtain ⟨s10, e10, e10'⟩ := c_within ha hb e9'.1
  obtain ⟨s11, e11, e11'⟩ := c_size ha hb hc e10'.1
  refine ⟨s11, ?_, clf_trans e1' (clf_trans e2' (clf_trans e3' (clf_trans e4' (clf_trans e5' (clf_trans e6' (clf_trans e7' (clf_trans e8' (clf_trans e9' (clf_trans e10' e11')))))))))⟩
  unfold fX1_errorsOf
  rw [e1]
  simp only [Option.bind_some, e2, e3, e4, e5, e6, e7, e8, e9, e10, e11]
  rfl
theorem c_laws {a b c : Nat} (ha : a < 52) (hb : b < 52) (hc : c < 52) {s : cS} (W : Wf s) : ∃ s', fX1_errorsEachWay a b c s = some (0, s') ∧ clf s s' := by
  obtain ⟨s1, e1, e1'⟩ := c_errors ha hb hc W
  obtain ⟨s2, e2, e2'⟩ := c_errors ha hc hb e1'.1
  obtain ⟨s3, e3, e3'⟩ := c_errors hb ha hc e2'.1
  obtain ⟨s4, e4, e4'⟩ := c_errors hb hc ha e3'.1
  obtain ⟨s5, e5, e5'⟩ := c_errors hc ha hb e4'.1
  obtain ⟨s6, e6, e6'⟩ := c_errors hc hb ha e5'.1
  refine ⟨s6, ?_, clf_trans e1' (clf_trans e2' (clf_trans e3' (clf_trans e4' (clf_trans e5' e6'))))⟩
  unfold fX1_errorsEachWay
  rw [e1]
  simp only [Option.bind_some, e2, e3, e4, e5, e6]
  rfl
/-! the reference's side -/
def mlf (m m' : mS) : Prop := Vm m' ∧ m'.2 = m.2 ∧ ∀ r, r < 64 → mB m' r = mB m r
theorem mlf_trans {a b c : mS} (h : mlf a b) (g : mlf b c) : mlf a c := ⟨g.1, g.2.1.trans h.2.1, fun n hn => (g.2.2 n hn).trans (h.2.2 n hn)⟩
theorem m_j (a b : Nat) (how : Int32) {c : Nat} (hc : 64 ≤ c) {m : mS} (V : Vm m) : ∃ m', fX8_joins a b how c m = some m' ∧ mlf m m' ∧ mB m' c = jn how (mB m a) (mB m b) ∧ ∀ r, r ≠ c → mB m' r = mB m r := by
  obtain ⟨m', h1, h2, h3, h4⟩ := m_joins a b how c V
  have n : ∀ r, r ≠ c → mB m' r = mB m r := fun r hr => by rw [h3]; exact zu_ne _ hr _
  exact ⟨m', h1, ⟨h2, h4, fun r hr => n r (by omega)⟩, by rw [h3]; exact zu_at _ _ _, n⟩
theorem others_0 {m : mS} (V : Vm m) (h : mB m 64 = mB m 65) : fX8_others m = some (0, m) := by
  unfold fX8_others
  rw [m_areSame _ _ V, h, same_self]
  rfl
theorem m_three0 {x y z : Nat} (hx : x < 64) (hy : y < 64) (hz : z < 64) (i o : Int32) {n : Nat} (hn : n = 64 ∨ n = 65) {m : mS} (V : Vm m) : ∃ m', fX8_three x y z i o 0 n m = some m' ∧ mlf m m' ∧ mB m' n = jn o (jn i (mB m x) (mB m y)) (mB m z) ∧ ∀ r, r ≠ 66 → r ≠ n → mB m' r = mB m r := by
  obtain ⟨m1, e1, e2, e3, e4⟩ := m_j x y i (c := 66) (by omega) V
  obtain ⟨m2, f1, f2, f3, f4⟩ := m_j 66 z o (c := n) (by omega) e2.1
  refine ⟨m2, ?_, mlf_trans e2 f2, by rw [f3, e3, e4 z (by omega)], fun r h1 h2 => by rw [f4 r h2, e4 r h1]⟩
  unfold fX8_three
  simp only [if_true, e1, Option.bind_some, f1]
theorem m_three1 {x y z : Nat} (hx : x < 64) (hy : y < 64) (hz : z < 64) (i o : Int32) {n : Nat} (hn : n = 64 ∨ n = 65) {m : mS} (V : Vm m) : ∃ m', fX8_three x y z i o 1 n m = some m' ∧ mlf m m' ∧ mB m' n = jn o (mB m x) (jn i (mB m y) (mB m z)) ∧ ∀ r, r ≠ 66 → r ≠ n → mB m' r = mB m r := by
  obtain ⟨m1, e1, e2, e3, e4⟩ := m_j y z i (c := 66) (by omega) V
  obtain ⟨m2, f1, f2, f3, f4⟩ := m_j x 66 o (c := n) (by omega) e2.1
  refine ⟨m2, ?_, mlf_trans e2 f2, by rw [f3, e3, e4 x (by omega)], fun r h1 h2 => by rw [f4 r h2, e4 r h1]⟩
  unfold fX8_three
  simp only [one_0, e1, Option.bind_some, f1]
theorem m_orders {how : Int32} (hh : how = 0 ∨ how = 1) {x y z : Nat} (hx : x < 64) (hy : y < 64) (hz : z < 64) {m : mS} (V : Vm m) : ∃ m', fX8_ordersAndBrackets x y z how m = some (0, m') ∧ mlf m m' := by
  obtain ⟨m1, a1, a2, a3, a4⟩ := m_j x y how (c := 64) (by omega) V
  obtain ⟨m2, b1, b2, b3, b4⟩ := m_j y x how (c := 65) (by omega) a2.1
  have o1 : fX8_others m2 = some (0, m2) := others_0 b2.1 (by rw [b4 64 (by omega), a3, b3, a4 y (by omega), a4 x (by omega)]; exact jn_com hh _ _)
  obtain ⟨m4, c1, c2, c3, c4⟩ := m_three0 hx hy hz how how (n := 64) (Or.inl rfl) b2.1
  obtain ⟨m5, d1, d2, d3, d4⟩ := m_three1 hx hy hz how how (n := 65) (Or.inr rfl) c2.1
  have o2 : fX8_others m5 = some (0, m5) := others_0 d2.1 (by rw [d4 64 (by omega) (by omega), c3, d3, c4 x (by omega) (by omega), c4 y (by omega) (by omega), c4 z (by omega) (by omega)]; exact jn_assoc hh _ _ _)
  obtain ⟨m7, f1, f2, f3, f4⟩ := m_j x x how (c := 64) (by omega) d2.1
  obtain ⟨m8, g1, g2, g3, g4⟩ := m_copies x 65 f2.1
  have g5 : ∀ r, r ≠ 65 → mB m8 r = mB m7 r := fun r hr => by rw [g3]; exact zu_ne _ hr _
  have g6 : mB m8 65 = mB m7 x := by rw [g3]; exact zu_at _ _ _
  have o3 : fX8_others m8 = some (0, m8) := others_0 g2 (by rw [g5 64 (by omega), f3, g6, f4 x (by omega)]; exact jn_idem hh _)
  refine ⟨m8, ?_, mlf_trans a2 (mlf_trans b2 (mlf_trans c2 (mlf_trans d2 (mlf_trans f2 ⟨g2, g4, fun r hr => g5 r (by omega)⟩))))⟩
  unfold fX8_ordersAndBrackets
  simp only [a1, b1, o1, c1, d1, o2, f1, g1, o3, Option.bind_some]
  rfl
theorem m_parts {i o : Int32} (hh : i = 0 ∧ o = 1 ∨ i = 1 ∧ o = 0) {x y z : Nat} (hx : x < 64) (hy : y < 64) (hz : z < 64) {m : mS} (V : Vm m) : ∃ m', fX8_parts x y z o i m = some (0, m') ∧ mlf m m' := by
  obtain ⟨m1, a1, a2, a3, a4⟩ := m_three1 hx hy hz i o (n := 64) (Or.inl rfl) V
  obtain ⟨m2, b1, b2, b3, b4⟩ := m_j x y o (c := 65) (by omega) a2.1
  obtain ⟨m3, c1, c2, c3, c4⟩ := m_j x z o (c := 66) (by omega) b2.1
  obtain ⟨m4, d1, d2, d3, d4⟩ := m_j 65 66 i (c := 65) (by omega) c2.1
  have o1 : fX8_others m4 = some (0, m4) := others_0 d2.1 (by
    rw [d4 64 (by omega), c4 64 (by omega), b4 64 (by omega), a3, d3, c4 65 (by omega), b3, c3, b4 x (by omega), b4 z (by omega), a4 x (by omega) (by omega), a4 y (by omega) (by omega), a4 z (by omega) (by omega)]
    exact jn_dist hh _ _ _)
  refine ⟨m4, ?_, mlf_trans a2 (mlf_trans b2 (mlf_trans c2 d2))⟩
  unfold fX8_parts
  simp only [a1, b1, c1, d1, o1, Option.bind_some]
theorem m_within {x y : Nat} (hx : x < 64) (hy : y < 64) {m : mS} (V : Vm m) : ∃ m', fX8_within x y m = some (0, m') ∧ mlf m m' := by
  obtain ⟨m1, a1, a2, a3, a4⟩ := m_j x y 0 (c := 64) (by omega) V
  obtain ⟨m3, b1, b2, b3, b4⟩ := m_j x y 1 (c := 64) (by omega) a2.1
  refine ⟨m3, ?_, mlf_trans a2 b2⟩
  unfold fX8_within
  simp only [a1, b1, Option.bind_some, m_areSame _ _ a2.1, m_areSame _ _ b2.1, m_lies, a3, b3, a4 y (by omega), a4 x (by omega), b4 x (by omega), b4 y (by omega)]
  rw [← inn_or, ← inn_and, if_pos rfl, if_pos rfl]
theorem m_som {x y : Nat} (hx : x < 64) (hy : y < 64) {m : mS} (V : Vm m) : ∃ m', fX8_sizeOfMeet x y m = some (nI (sz (jn 1 (mB m x) (mB m y))), m') ∧ mlf m m' ∧ mB m' 65 = mB m 65 := by
  obtain ⟨m1, a1, a2, a3, a4⟩ := m_j x y 1 (c := 64) (by omega) V
  refine ⟨m1, ?_, a2, a4 65 (by omega)⟩
  unfold fX8_sizeOfMeet
  simp only [a1, Option.bind_some, m_sizeOf, a3]
theorem m_sizes {x y z : Nat} (hx : x < 64) (hy : y < 64) (hz : z < 64) {m : mS} (V : Vm m) : ∃ m', fX8_sizes x y z m = some (0, m') ∧ mlf m m' := by
  obtain ⟨m1, a1, a2, a3, a4⟩ := m_three0 hx hy hz 0 0 (n := 65) (Or.inr rfl) V
  obtain ⟨m5, b1, b2, b3⟩ := m_som hx hy a2.1
  obtain ⟨m6, c1, c2, c3⟩ := m_som hx hz b2.1
  obtain ⟨m7, d1, d2, d3⟩ := m_som hy hz c2.1
  obtain ⟨m8, f1, f2, f3, f4⟩ := m_j x y 1 (c := 64) (by omega) d2.1
  obtain ⟨m9, g1, g2, g3, g4⟩ := m_j 64 z 1 (c := 64) (by omega) f2.1
  have q1 : ∀ r, r < 64 → mB m1 r = mB m r := a2.2.2
  have q5 : ∀ r, r < 64 → mB m5 r = mB m r := fun r hr => (b2.2.2 r hr).trans (q1 r hr)
  have q6 : ∀ r, r < 64 → mB m6 r = mB m r := fun r hr => (c2.2.2 r hr).trans (q5 r hr)
  have q7 : ∀ r, r < 64 → mB m7 r = mB m r := fun r hr => (d2.2.2 r hr).trans (q6 r hr)
  have y64 : mB m9 64 = jn 1 (jn 1 (mB m x) (mB m y)) (mB m z) := by rw [g3, f3, f4 z (by omega), q7 x hx, q7 y hy, q7 z hz]
  have y65 : mB m9 65 = jn 0 (jn 0 (mB m x) (mB m y)) (mB m z) := by rw [g4 65 (by omega), f4 65 (by omega), d3, c3, b3, a3]
  refine ⟨m9, ?_, mlf_trans a2 (mlf_trans b2 (mlf_trans c2 (mlf_trans d2 (mlf_trans f2 g2))))⟩
  unfold fX8_sizes
  simp only [a1, b1, c1, d1, f1, g1, Option.bind_some, m_sizeOf, y64, y65, q1 x hx, q1 y hy, q1 z hz, q5 x hx, q5 z hz, q6 y hy, q6 z hz]
  rw [if_pos (size_id2 (ie_sz (mB m x) (mB m y) (mB m z)) (meet_le _ _ _))]
theorem m_laws {x y z : Nat} (hx : x < 8) (hy : y < 8) (hz : z < 8) {m : mS} (V : Vm m) : ∃ m', fX8_lawErrors (nI x) (nI y) (nI z) m = some (0, m') ∧ mlf (vI m 0 0) m' := by
  have lx : x < 64 := by omega
  have ly : y < 64 := by omega
  have lz : z < 64 := by omega
  obtain ⟨m6, a1, a2⟩ := m_orders (how := 0) (Or.inl rfl) lx ly lz (Vm_vI V 0 0)
  obtain ⟨m7, b1, b2⟩ := m_orders (how := 1) (Or.inr rfl) lx ly lz a2.1
  obtain ⟨m8, c1, c2⟩ := m_parts (i := 0) (o := 1) (Or.inl ⟨rfl, rfl⟩) lx ly lz b2.1
  obtain ⟨m9, d1, d2⟩ := m_parts (i := 1) (o := 0) (Or.inr ⟨rfl, rfl⟩) lx ly lz c2.1
  obtain ⟨m10, e1, e2, e3, e4⟩ := m_three1 lx ly lz 0 2 (n := 64) (Or.inl rfl) d2.1
  obtain ⟨m11, f1, f2, f3, f4⟩ := m_j x y 2 (c := 65) (by omega) e2.1
  obtain ⟨m12, g1, g2, g3, g4⟩ := m_j x z 2 (c := 66) (by omega) f2.1
  obtain ⟨m13, h1, h2, h3, h4⟩ := m_j 65 66 1 (c := 65) (by omega) g2.1
  have o1 : fX8_others m13 = some (0, m13) := others_0 h2.1 (by
    rw [h4 64 (by omega), g4 64 (by omega), f4 64 (by omega), e3, h3, g4 65 (by omega), f3, g3, f4 x (by omega), f4 z (by omega), e4 x (by omega) (by omega), e4 y (by omega) (by omega), e4 z (by omega) (by omega)]
    exact jn_dm (Or.inl ⟨rfl, rfl⟩) _ _ _)
  obtain ⟨m15, k1, k2⟩ := m_within lx ly h2.1
  obtain ⟨m16, l1, l2⟩ := m_sizes lx ly lz k2.1
  refine ⟨m16, ?_, mlf_trans a2 (mlf_trans b2 (mlf_trans c2 (mlf_trans d2 (mlf_trans e2 (mlf_trans f2 (mlf_trans g2 (mlf_trans h2 (mlf_trans k2 l2))))))))⟩
  unfold fX8_lawErrors
  simp only [(set_in hx).2, (set_in hy).2, (set_in hz).2, one_0, pass_0, Option.bind_some, vin8 hx, vin8 hy, vin8 hz, cl8 hx, cl8 hy, cl8 hz, if_true, a1, b1, c1, d1, e1, f1, g1, h1, o1, k1, l1]
  rfl
theorem mlf_meq {m m' : mS} (h : mlf m m') : meq m m' := ⟨fun r hr _ => h.2.2 r (by omega), mI_eq h.2.1 1, mI_eq h.2.1 3, mT_eq h.2.1⟩
theorem clf_aeq {s s' : cS} (h : clf s s') : aeq s s' := ⟨fun n hn => h.2.2 n (by omega), sI_eq h.2.1 0, sI_eq h.2.1 2, sT_eq h.2.1⟩
theorem g_lawErrors {a : cS} {m : mS} {ee : Nat} (h : Rel a m) (p q r : Int32) : Meets 1 ee (fX7_lawErrors p q r a) (fX8_lawErrors p q r m) := by
  rcases set_or p with ⟨i, hi, rfl⟩ | ⟨s1, s2⟩
  · rcases set_or q with ⟨j, hj, rfl⟩ | ⟨s1, s2⟩
    · rcases set_or r with ⟨k, hk, rfl⟩ | ⟨s1, s2⟩
      · obtain ⟨a', e1, e2⟩ := c_laws (a := i) (b := j) (c := k) (by omega) (by omega) (by omega) h.1
        obtain ⟨m', f1, f2⟩ := m_laws hi hj hk h.2.1
        refine Meets.ok (r := 0) (a' := a') (m' := m') ?_ f1 (mI_eq f2.2.1 0) (Rel_keep (Rel_v0 h 0) (clf_aeq e2) (mlf_meq f2) e2.1 f2.1)
        unfold fX7_lawErrors
        simp only [(set_in hi).1, (set_in hj).1, (set_in hk).1, Option.bind_some, Sum.elim_inr, if_pos (lt8 hi), if_pos (lt8 hj), if_pos (lt8 hk), e1]
      · refine Meets.e1 (r := 0) h ?_ ?_
        · unfold fX7_lawErrors
          simp only [(set_in hi).1, (set_in hj).1, s1, Option.bind_some, Sum.elim_inr, Sum.elim_inl, if_pos (lt8 hi), if_pos (lt8 hj)]
        · unfold fX8_lawErrors
          simp only [(set_in hi).2, (set_in hj).2, s2, one_0, pass_1, Option.bind_some, if_true]
    · refine Meets.e1 (r := 0) h ?_ ?_
      · unfold fX7_lawErrors
        simp only [(set_in hi).1, s1, Option.bind_some, Sum.elim_inr, Sum.elim_inl, if_pos (lt8 hi)]
      · unfold fX8_lawErrors
        simp only [(set_in hi).2, s2, one_0, pass_1, Option.bind_some, if_true]
  · refine Meets.e1 (r := 0) h ?_ ?_
    · unfold fX7_lawErrors
      simp only [s1, Option.bind_some, Sum.elim_inl]
    · unfold fX8_lawErrors
      simp only [s2, pass_1, Option.bind_some, if_true]
/-! ===== the text ===== -/
def byt (x : Int64) (k : Nat) : Nat := x.toBitVec.toNat / 2 ^ (8 * k) % 256
theorem byt_lt (x : Int64) (k : Nat) : byt x k < 256 := Nat.mod_lt _ (by decide)
theorem byte_c (x : Int64) {k : Nat} (hk : k < 8) : (x.toUInt64 >>> ((nI (8 * k)).toInt64.toUInt64 &&& Int64.toUInt64 63)).toInt64 &&& 255 = lN (byt x k) := by
  have ex : x = lN x.toBitVec.toNat := wb_inj (by rw [wb_tb]; simp)
  have hn : x.toBitVec.toNat < 2 ^ 64 := x.toBitVec.isLt
  unfold byt
  generalize x.toBitVec.toNat = n at ex hn ⊢
  rw [ex, wb_shr hn (by omega)]
  exact wb_mask (k := 8) (Nat.lt_of_le_of_lt (Nat.div_le_self _ _) hn) (by decide)
theorem sar_amt : ∀ k, k < 8 → (((8 * nI k).toInt64 &&& 63).toBitVec.smod 64).toNat = 8 * k := by decide +kernel
theorem sar_amt2 : ∀ k, k < 8 → ((UInt64.ofNat (8 * k)).toBitVec % 64).toNat = 8 * k := by decide +kernel
theorem b255 : ∀ i, i < 64 → (255 : Int64).toBitVec.getLsbD i = decide (i < 8) := by decide +kernel
theorem byte_m (x : Int64) {k : Nat} (hk : k < 8) : (x >>> ((8 * nI k).toInt64 &&& 63)) &&& 255 = lN (byt x k) := by
  rw [← byte_c x hk]
  apply Int64.toBitVec_inj.mp
  apply BitVec.eq_of_getLsbD_eq
  intro i hi
  rw [Int64.toBitVec_and, Int64.toBitVec_and, BitVec.getLsbD_and, BitVec.getLsbD_and, b255 i hi]
  by_cases c : i < 8
  · rw [decide_eq_true c, Bool.and_true, Bool.and_true]
    show (x.toBitVec.sshiftRight (((8 * nI k).toInt64 &&& 63).toBitVec.smod 64).toNat).getLsbD i = (x.toUInt64 >>> ((nI (8 * k)).toInt64.toUInt64 &&& Int64.toUInt64 63)).toBitVec.getLsbD i
    rw [sar_amt k hk, BitVec.getLsbD_sshiftRight, wb_cu (8 * k) (by omega), if_pos (by omega), decide_eq_false (by omega)]
    show (true && x.toBitVec.getLsbD (8 * k + i)) = (x.toBitVec >>> ((UInt64.ofNat (8 * k)).toBitVec % 64)).getLsbD i
    have e := sar_amt2 k hk
    rw [BitVec.ushiftRight_eq', BitVec.getLsbD_ushiftRight, e, Bool.true_and]
  · rw [decide_eq_false c, Bool.and_false, Bool.and_false]
theorem lN_eq0 {n : Nat} (h : n < 256) : lg_cmp (lN n) 0 = 0 ↔ n = 0 := by
  rw [lg_cmp_eq]
  exact lN_eq (b := 0) (by omega) (by decide)
theorem x4_j : ∀ i, i < 8 → nI (8 * (i + 1)) + (-8) = nI (8 * i) := by decide +kernel
def nzb (x : Int64) (k : Nat) : Bool := decide (byt x k ≠ 0)
theorem p_app_ct (x : Int64) (k0 : Int32 → cS → Option (Int32 × cS)) (s : cS) : ∀ (j fuel A : Nat), j ≤ 8 → j < fuel → fX4_append_L6 x k0 fuel (nI A) (nI (8 * j) + (-8)) s = k0 (nI (A + fb_ct (nzb x) j)) s := by
  intro j
  induction j with
  | zero =>
    intro fuel A hj hf
    obtain ⟨f, rfl⟩ : ∃ f, fuel = f + 1 := ⟨fuel - 1, by omega⟩
    rw [fX4_append_L6, if_pos (by decide)]
    rfl
  | succ i ih =>
    intro fuel A hj hf
    obtain ⟨f, rfl⟩ : ∃ f, fuel = f + 1 := ⟨fuel - 1, by omega⟩
    rw [fX4_append_L6, x4_j i (by omega), if_neg (nI_pos (by omega)), byte_c x (show i < 8 by omega), nI_1]
    have e := lN_eq0 (byt_lt x i)
    rw [ct_succ]
    by_cases c : byt x i = 0
    · rw [if_pos (e.mpr c), show nzb x i = false from decide_eq_false (fun z => z c), if_neg (fun z => Bool.noConfusion z)]
      exact ih f A (by omega) (by omega)
    · rw [if_neg (fun z => c (e.mp z)), show nzb x i = true from decide_eq_true c, if_pos rfl, ih f (A + 1) (by omega) (by omega)]
      rw [show A + 1 + fb_ct (nzb x) i = A + (fb_ct (nzb x) i + 1) from by omega]
theorem m_type_ct (x : Int64) (k0 : Int32 → mS → Option (Int32 × mS)) (m : mS) : ∀ (d fuel k : Nat), k + d = 8 → d < fuel → fX8_type_L5 x k0 fuel (nI (fb_ct (nzb x) k)) (nI k) m = k0 (nI (fb_ct (nzb x) 8)) m := by
  intro d
  induction d with
  | zero =>
    intro fuel k h hf
    obtain ⟨f, rfl⟩ : ∃ f, fuel = f + 1 := ⟨fuel - 1, by omega⟩
    have : k = 8 := by omega
    subst this
    rw [fX8_type_L5, if_pos (show (8 : Int32) ≤ nI 8 from by decide)]
  | succ d ih =>
    intro fuel k h hf
    obtain ⟨f, rfl⟩ : ∃ f, fuel = f + 1 := ⟨fuel - 1, by omega⟩
    have hk : k < 8 := by omega
    rw [fX8_type_L5, if_neg (ge_8 hk), byte_m x hk, nI_1, nI_1, Int32.add_zero]
    have e := lN_eq0 (byt_lt x k)
    have := ih f (k + 1) (by omega) (by omega)
    rw [ct_succ] at this
    by_cases c : byt x k = 0
    · rw [show nzb x k = false from decide_eq_false (fun z => z c), if_neg (fun z => Bool.noConfusion z)] at this
      rw [if_pos (e.mpr c)]
      exact this
    · rw [show nzb x k = true from decide_eq_true c, if_pos rfl] at this
      rw [if_neg (fun z => c (e.mp z))]
      exact this
theorem ch_b : ∀ b, b < 256 → vp_nar .char (((nI b).toUInt32 % 65536).toInt32) = nI b := by decide +kernel
theorem vin200 {i : Nat} (h : i < 200) : vin (nI i) 200 = true := vinI h (by decide)
theorem cl200 {i : Nat} (h : i < 200) : (nI i).toNatClampNeg = i := nI_clamp (by omega)
theorem p_appendByte {b L : Nat} (hb : b < 256) (h0 : b ≠ 0) (hL : L < 200) {s : cS} (hI : sI s 2 = nI L) : fX4_appendByte (nI b) s = some (uI (uT s L (nI b)) 2 (nI (L + 1))) := by
  unfold fX4_appendByte
  have e : sI (uT s L (nI b)) 2 = nI L := hI
  rw [if_neg (fun z => h0 ((nI_eq0 (by omega)).mp z)), hI, if_neg (show ¬ (200 : Int32) ≤ nI L from nI_ge (b := 200) hL (by decide)), if_pos (vin200 hL), cl200 hL, ch_b b hb, e, nI_1]
theorem p_append0 (s : cS) : fX4_appendByte (nI 0) s = some s := rfl
/-- one more byte on both sides -/
theorem Rel_byte {a : cS} {m : mS} (h : Rel a m) {L b : Nat} (hL : L < 200) (h0 : b ≠ 0) (hb : b < 256) (t1 : sI a 2 = nI L) (t2 : mI m 3 = nI L) : Rel (uI (uT a L (nI b)) 2 (nI (L + 1))) (vI (vT m L (nI b)) 3 (nI (L + 1))) := by
  obtain ⟨W, V, hs, ⟨c, hc, f1, f2, f3⟩, ⟨L', hL', s1, s2, s3⟩⟩ := h
  have e : L' = L := by
    have := s1.symm.trans t1
    exact (nI_eq (by omega) (by omega)).mp this
  subst e
  refine ⟨W, V, hs, ⟨c, hc, f1, f2, f3⟩, ⟨L' + 1, by omega, rfl, rfl, fun k hk => ?_⟩⟩
  by_cases q : k = L'
  · subst q
    exact ⟨b, by omega, hb, if_pos rfl, pk_us⟩
  · obtain ⟨b', g1, g2, g3, g4⟩ := s3 k (by omega)
    exact ⟨b', g1, g2, (if_neg q).trans g3, (pk_un q).trans g4⟩
theorem m1_j : ∀ i, i < 8 → nI (i + 1) + (-1) = nI i := by decide +kernel
theorem app_L (x : Int64) : ∀ (j fuel L : Nat) (a : cS) (m : mS), j ≤ 8 → j < fuel → Rel a m → sI a 2 = nI L → mI m 3 = nI L → L + fb_ct (nzb x) j ≤ 200 → ∃ a' m', fX4_append_L51 x fuel (nI (8 * j) + (-8)) a = some (1, a') ∧ fX8_type_L73 x fuel (nI j + (-1)) m = some (nI (L + fb_ct (nzb x) j), m') ∧ Rel a' m' ∧ sI a' 2 = nI (L + fb_ct (nzb x) j) ∧ mI m' 0 = mI m 0 := by
  intro j
  induction j with
  | zero =>
    intro fuel L a m hj hf hR t1 t2 hl
    obtain ⟨f, rfl⟩ : ∃ f, fuel = f + 1 := ⟨fuel - 1, by omega⟩
    rw [fX4_append_L51, if_pos (by decide), fX8_type_L73, if_pos (by decide), t2]
    exact ⟨a, m, rfl, rfl, hR, t1, rfl⟩
  | succ i ih =>
    intro fuel L a m hj hf hR t1 t2 hl
    obtain ⟨f, rfl⟩ : ∃ f, fuel = f + 1 := ⟨fuel - 1, by omega⟩
    have hi : i < 8 := by omega
    rw [fX4_append_L51, x4_j i hi, if_neg (nI_pos (by omega)), byte_c x hi, fX8_type_L73, m1_j i hi, if_neg (nI_pos (by omega)), byte_m x hi, lN_i]
    rw [ct_succ] at hl ⊢
    by_cases c : byt x i = 0
    · have en : nzb x i = false := decide_eq_false (fun z => z c)
      simp only [en, Bool.false_eq_true, if_false] at hl ⊢
      rw [c, p_append0, if_pos (show nI 0 = 0 from rfl)]
      exact ih f L a m (by omega) (by omega) hR t1 t2 hl
    · have en : nzb x i = true := decide_eq_true c
      simp only [en, if_true] at hl ⊢
      have hL : L < 200 := by omega
      rw [p_appendByte (byt_lt x i) c hL t1, if_neg (fun z => c ((nI_eq0 (by have := byt_lt x i; omega)).mp z)), t2, if_pos (vin200 hL), cl200 hL]
      have e : mI (vT m L (nI (byt x i))) 3 = nI L := t2
      rw [e, nI_1]
      obtain ⟨a', m', r1, r2, r3, r4, r5⟩ := ih f (L + 1) _ _ (by omega) (by omega) (Rel_byte hR hL c (byt_lt x i) t1 t2) rfl rfl (by omega)
      rw [show L + (fb_ct (nzb x) i + 1) = L + 1 + fb_ct (nzb x) i from by omega]
      exact ⟨a', m', r1, r2, r3, r4, r5⟩
theorem g_type {a : cS} {m : mS} {ee : Nat} (h : Rel a m) (x : Int64) : Meets 4 ee (fX7_type x a) (fX8_type x m) := by
  obtain ⟨L, hL, t1, t2, t3⟩ := h.2.2.2.2
  have N8 : fb_ct (nzb x) 8 ≤ 8 := fb_ct_le _ 8
  unfold fX7_type fX4_append fX8_type
  have A := p_app_ct x (fun y3_1 s1 => if ((sI s1 2) + y3_1) ≤ 200 then (fX4_append_L51 x 1100 (56 : Int32) s1) else (some ((0, s1)))) a 8 1100 0 (by decide) (by decide)
  have B := m_type_ct x (fun y3_1 s1 => if 200 < ((mI s1 3) + y3_1) then ((fX8_passes (0 : Int32) (1 : Int32) s1).bind (fun (r2, s2) => if r2 = 0 then (some ((0, s2))) else (fX8_type_L73 x 1100 (7 : Int32) s2))) else ((fX8_passes (1 : Int32) (1 : Int32) s1).bind (fun (r4, s4) => if r4 = 0 then (some ((0, s4))) else (fX8_type_L73 x 1100 (7 : Int32) s4)))) m 8 1100 0 rfl (by decide)
  rw [show nI (8 * 8) + (-8) = (56 : Int32) from by decide, nI_0, Nat.zero_add] at A
  rw [show fb_ct (nzb x) 0 = 0 from rfl, nI_0] at B
  rw [A, B]
  simp only [t1, t2, nI_add]
  by_cases c : L + fb_ct (nzb x) 8 ≤ 200
  · rw [if_pos (show nI (L + fb_ct (nzb x) 8) ≤ 200 from nI_le (b := 200) c (by decide)), if_neg (show ¬ (200 : Int32) < nI (L + fb_ct (nzb x) 8) from nI_nlt (a := 200) c (by decide))]
    obtain ⟨a', m', r1, r2, r3, r4, r5⟩ := app_L x 8 1100 L a (vI m 0 0) (by decide) (by decide) (Rel_v0 h 0) t1 t2 c
    rw [show nI (8 * 8) + (-8) = (56 : Int32) from by decide] at r1
    rw [show nI 8 + (-1) = (7 : Int32) from by decide] at r2
    refine Meets.ok (r := nI (L + fb_ct (nzb x) 8)) (a' := a') (m' := m') ?_ ?_ (r5.trans rfl) r3
    · rw [r1]
      simp only [Option.bind_some, one_0]
      unfold fX4_length
      rw [r4]
    · simp only [pass_0, Option.bind_some, one_0]
      exact r2
  · rw [if_neg (show ¬ nI (L + fb_ct (nzb x) 8) ≤ 200 from nI_ge (a := 200) (by omega) (by omega)), if_pos (show (200 : Int32) < nI (L + fb_ct (nzb x) 8) from nI_lt (a := 200) (by omega) (by omega))]
    refine Meets.e1 (r := 0) h ?_ ?_
    · simp only [Option.bind_some, if_true]
    · simp only [pass_1, Option.bind_some, if_true]
theorem g_clearText {a : cS} {m : mS} (h : Rel a m) : Meet0 (fX7_clearText a) (fX8_clearText m) := by
  obtain ⟨W, V, hs, hf, ⟨L, hL, t1, t2, t3⟩⟩ := h
  refine ⟨nI L, uI a 2 0, vI (vI m 0 0) 3 0, ?_, ?_, W, V, hs, hf, ⟨0, by omega, rfl, rfl, fun k hk => by omega⟩⟩
  · unfold fX7_clearText fX4_empty fX4_length
    simp only [Option.bind_some, t1]
  · unfold fX8_clearText
    rw [show mI (vI m 0 0) 3 = nI L from t2]
theorem g_textLength {a : cS} {m : mS} (h : Rel a m) : Meet0 (some (fX7_textLength a, a)) (fX8_textLength m) := by
  obtain ⟨L, hL, t1, t2, t3⟩ := h.2.2.2.2
  refine ⟨nI L, a, vI m 0 0, ?_, ?_, Rel_v0 h 0⟩
  · unfold fX7_textLength fX4_length
    rw [t1]
  · unfold fX8_textLength
    rw [show mI (vI m 0 0) 3 = nI L from t2]
/-! the three programs -/
def bb (z k : Nat) : Nat := (fS_at z (nI k)).toNatClampNeg
theorem bb_all : ∀ z, z < 3 → ∀ k, k < slen.getD z 0 → fS_at z (nI k) = nI (bb z k) ∧ 0 < bb z k ∧ bb z k < 256 := by decide +kernel
theorem sl_all : ∀ z, z < 3 → slen.getD z 0 ≤ 200 := by decide +kernel
theorem p_bec_L {z : Nat} (hz : z < 3) (a0 : cS) : ∀ (d fuel k : Nat) (a : cS), k + d = slen.getD z 0 → d < fuel → cB a = cB a0 → sI a 2 = nI k → (∀ j, j ≠ 2 → sI a j = sI a0 j) → (∀ l, l < k → sT a l = nI (bb z l)) → ∃ a', fX4_become_L7 z fuel (nI k) a = some a' ∧ cB a' = cB a0 ∧ sI a' 2 = nI (slen.getD z 0) ∧ (∀ j, j ≠ 2 → sI a' j = sI a0 j) ∧ (∀ l, l < slen.getD z 0 → sT a' l = nI (bb z l)) := by
  have sl := sl_all z hz
  intro d
  induction d with
  | zero =>
    intro fuel k a h hf hB hI hJ hT
    obtain ⟨f, rfl⟩ : ∃ f, fuel = f + 1 := ⟨fuel - 1, by omega⟩
    rw [fX4_become_L7, show fS_len z = nI (slen.getD z 0) from rfl, if_pos (show nI (slen.getD z 0) ≤ nI k from nI_le (by omega) (by omega))]
    have : k = slen.getD z 0 := by omega
    subst this
    exact ⟨a, rfl, hB, hI, hJ, hT⟩
  | succ d ih =>
    intro fuel k a h hf hB hI hJ hT
    obtain ⟨f, rfl⟩ : ∃ f, fuel = f + 1 := ⟨fuel - 1, by omega⟩
    have q := bb_all z hz k (by omega)
    rw [fX4_become_L7, show fS_len z = nI (slen.getD z 0) from rfl, if_neg (show ¬ nI (slen.getD z 0) ≤ nI k from nI_ge (by omega) (by omega)), if_pos (vinI (by omega) (by omega)), q.1, p_appendByte q.2.2 (by omega) (show k < 200 by omega) hI, nI_1]
    simp only [Option.bind_some]
    refine ih f (k + 1) _ (by omega) (by omega) hB rfl (fun j hj => ?_) (fun l hl => ?_)
    · exact (if_neg hj).trans (hJ j hj)
    · show (if l = k then nI (bb z k) else sT a l) = nI (bb z l)
      by_cases e : l = k
      · rw [if_pos e, e]
      · rw [if_neg e]
        exact hT l (by omega)
theorem m_ex_L {z : Nat} (hz : z < 3) (k0 : mS → Option (Int32 × mS)) (m0 : mS) : ∀ (d fuel k : Nat) (m : mS), k + d = slen.getD z 0 → d < fuel → m.1 = m0.1 → m.2.1 = m0.2.1 → (∀ l, l < k → mT m l = nI (bb z l)) → ∃ m', fX8_example_L23 z k0 fuel (nI k) m = k0 m' ∧ m'.1 = m0.1 ∧ m'.2.1 = m0.2.1 ∧ (∀ l, l < slen.getD z 0 → mT m' l = nI (bb z l)) := by
  have sl := sl_all z hz
  intro d
  induction d with
  | zero =>
    intro fuel k m h hf hR hI hT
    obtain ⟨f, rfl⟩ : ∃ f, fuel = f + 1 := ⟨fuel - 1, by omega⟩
    rw [fX8_example_L23, show fS_len z = nI (slen.getD z 0) from rfl, if_pos (show nI (slen.getD z 0) ≤ nI k from nI_le (by omega) (by omega))]
    have : k = slen.getD z 0 := by omega
    subst this
    exact ⟨m, rfl, hR, hI, hT⟩
  | succ d ih =>
    intro fuel k m h hf hR hI hT
    obtain ⟨f, rfl⟩ : ∃ f, fuel = f + 1 := ⟨fuel - 1, by omega⟩
    have q := bb_all z hz k (by omega)
    rw [fX8_example_L23, show fS_len z = nI (slen.getD z 0) from rfl, if_neg (show ¬ nI (slen.getD z 0) ≤ nI k from nI_ge (by omega) (by omega)), if_pos (vinI (by omega) (by omega)), if_pos (vin200 (show k < 200 by omega)), cl200 (show k < 200 by omega), q.1, nI_1]
    refine ih f (k + 1) _ (by omega) (by omega) hR hI (fun l hl => ?_)
    show upd m.2.2 k (nI (bb z k)) l = nI (bb z l)
    by_cases e : l = k
    · subst e
      exact pk_us
    · exact (pk_un e).trans (hT l (by omega))
theorem ex_one {a : cS} {m : mS} (h : Rel a m) {z : Nat} (hz : z < 3) : ∃ a' m', fX4_become z a = some a' ∧ fX4_length a' = nI (slen.getD z 0) ∧ fX8_example_L23 z (fun s7 => some ((mI (vI s7 3 (fS_len z)) 3, vI s7 3 (fS_len z)))) 1100 0 (vI m 0 0) = some (nI (slen.getD z 0), m') ∧ mI m' 0 = 0 ∧ Rel a' m' := by
  obtain ⟨W, V, hs, ⟨c, hc, f1, f2, f3⟩, ⟨L, hL, t1, t2, t3⟩⟩ := h
  have sl := sl_all z hz
  obtain ⟨a', e1, e2, e3, e4, e5⟩ := p_bec_L hz a (slen.getD z 0) 1100 0 (uI a 2 0) (by omega) (by omega) rfl rfl (fun j hj => if_neg hj) (fun l hl => by omega)
  obtain ⟨m1, g1, g2, g3, g4⟩ := m_ex_L hz (fun s7 => some ((mI (vI s7 3 (fS_len z)) 3, vI s7 3 (fS_len z)))) (vI m 0 0) (slen.getD z 0) 1100 0 (vI m 0 0) (by omega) (by omega) rfl rfl (fun l hl => by omega)
  have eB : mB (vI m1 3 (fS_len z)) = mB m := by
    funext r k
    show (decide (k < 102) && decide (m1.1 r k ≠ 0)) = (decide (k < 102) && decide (m.1 r k ≠ 0))
    rw [g2]
    rfl
  have eI : ∀ k, mI m1 k = mI (vI m 0 0) k := fun k => by unfold mI; rw [g3]
  refine ⟨a', vI m1 3 (fS_len z), e1, e3, g1, ?_, ?_⟩
  · rw [b_mI_vI, if_neg (by decide), eI 0]
    rfl
  · refine ⟨fun n => by rw [e2]; exact W n, fun r k => ?_, fun i hi => by rw [e2, eB]; exact hs i hi, ⟨c, hc, (e4 0 (by decide)).trans f1, ?_, fun j hj => by rw [e2, eB]; exact f3 j hj⟩, ⟨slen.getD z 0, sl, e3, rfl, fun k hk => ?_⟩⟩
    · show m1.1 r k = 0 ∨ m1.1 r k = 1
      rw [g2]
      exact V r k
    · rw [b_mI_vI, if_neg (by decide), eI 1]
      exact f2
    · have q := bb_all z hz k hk
      exact ⟨bb z k, q.2.1, q.2.2, e5 k hk, g4 k hk⟩
theorem exOf {j : Nat} (hj : j ≤ 2) (s : mS) : fX8_exampleOf (nI j) s = some (j, s) := by
  unfold fX8_exampleOf
  rcases show j = 0 ∨ j = 1 ∨ j = 2 by omega with rfl | rfl | rfl <;> rfl
theorem g_example {a : cS} {m : mS} {ee : Nat} (h : Rel a m) (p : Int32) : Meets 2 ee (fX7_example p a) (fX8_example p m) := by
  rcases rng p 0 2 with ⟨q1, q2, q3, q4⟩ | ⟨q1, q2⟩
  · obtain ⟨j, hj, rfl⟩ := three_of (n := 2) (by decide) q3 q4
    obtain ⟨a', m', e1, e2, e3, e4, e5⟩ := ex_one h (z := j) (by omega)
    refine Meets.ok (r := nI (slen.getD j 0)) (a' := a') (m' := m') ?_ ?_ e4 e5
    · unfold fX7_example
      simp only [q1, Option.bind_some, Sum.elim_inr]
      rcases show j = 0 ∨ j = 1 ∨ j = 2 by omega with rfl | rfl | rfl
      · rw [if_pos (show nI 0 = 0 from rfl), e1]
        simp only [Option.bind_some, e2]
      · rw [if_neg (show ¬ nI 1 = 0 by decide), if_pos (show nI 1 = 1 from rfl), e1]
        simp only [Option.bind_some, e2]
      · rw [if_neg (show ¬ nI 2 = 0 by decide), if_neg (show ¬ nI 2 = 1 by decide), e1]
        simp only [Option.bind_some, e2]
    · unfold fX8_example
      simp only [q2, pass_0, Option.bind_some, one_0]
      rw [exOf hj]
      simp only [Option.bind_some]
      rw [if_pos (show j < 3 by omega)]
      exact e3
  · refine Meets.e1 (r := 0) h ?_ ?_
    · unfold fX7_example
      simp only [q1, Option.bind_some, Sum.elim_inl]
    · unfold fX8_example
      simp only [q2, pass_1, Option.bind_some, if_true]
