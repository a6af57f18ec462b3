/-! ===== views, walks, no collection at all ===== -/
theorem view_in {i : Nat} (h : i < 8) (s : cS) : fX7_viewAt (nI i) s = some (.inr (58 + i, s)) := by
  unfold fX7_viewAt
  rw [if_neg (nI_pos (by omega)), if_pos (show nI i < 8 from nI_lt h (by decide)), if_pos (vin8 h), cl8 h]
theorem view_out {p : Int32} (h : ∀ s, fX7_setAt p s = some (.inl (1, s))) (s : cS) : fX7_viewAt p s = some (.inl (1, s)) := by
  have := h s
  unfold fX7_setAt at this
  unfold fX7_viewAt
  by_cases a : p < 0
  · rw [if_pos a]
  · rw [if_neg a] at this ⊢
    by_cases b : p < 8
    · rw [if_pos b] at this
      split at this
      · exact nomatch this
      · exact nomatch this
    · rw [if_neg b]
theorem view_rng {i : Nat} (h : i < 8) : 58 ≤ 58 + i ∧ 58 + i < 66 := by omega
theorem g_viewHas {a : cS} {m : mS} (h : Rel a m) (p q : Int32) : Meets 1 2 (fX7_viewHas p q a) (fX8_viewHas p q m) := by
  have e : fX7_viewHas p q a = fX7_has p q a := by
    unfold fX7_viewHas fX7_has
    rcases set_or p with ⟨i, hi, rfl⟩ | ⟨s1, s2⟩
    · obtain ⟨s1, s2⟩ := set_in hi
      simp only [view_in hi, s1, Option.bind_some, Sum.elim_inr, if_pos (lt8 hi), if_pos (view_rng hi)]
      unfold fX5_shows
      rw [Nat.add_sub_cancel_left]
    · simp only [view_out s1, s1, Option.bind_some, Sum.elim_inl]
  unfold fX8_viewHas
  rw [bind_id, e]
  exact g_has h p q
/-! a walk -/
theorem step_L (t : Nat) (mm : Int32) (k0 : Int32 → kS → Option ((Nat × kS) ⊕ (Int32 × kS))) (k1 : kS → Option ((Nat × kS) ⊕ (Int32 × kS))) (s : kS) : ∀ (d fuel k : Nat), k + d = 102 → d < fuel → (∃ i, k ≤ i ∧ i < 102 ∧ cB s.1 t i = true ∧ (∀ j, k ≤ j → j < i → cB s.1 t j = false) ∧ fX6_step_L5 t mm k0 k1 fuel (nI k) s = k0 (nI i) s) ∨ ((∀ j, k ≤ j → j < 102 → cB s.1 t j = false) ∧ fX6_step_L5 t mm k0 k1 fuel (nI k) s = k1 s) := by
  intro d
  induction d with
  | zero =>
    intro fuel k h hf
    obtain ⟨f, rfl⟩ : ∃ f, fuel = f + 1 := ⟨fuel - 1, by omega⟩
    have : k = 102 := by omega
    subst this
    right
    rw [fX6_step_L5, if_pos (show (102 : Int32) ≤ nI 102 from by decide)]
    exact ⟨fun j h1 h2 => by omega, rfl⟩
  | succ d ih =>
    intro fuel k h hf
    obtain ⟨f, rfl⟩ : ∃ f, fuel = f + 1 := ⟨fuel - 1, by omega⟩
    have hk : k < 102 := by omega
    rw [fX6_step_L5, if_neg (ge_102 hk), p_holds t s.1 hk, if_bi, nI_1]
    cases c : cB s.1 t k
    · rcases ih f (k + 1) (by omega) (by omega) with ⟨i, h1, h2, h3, h4, h5⟩ | ⟨h1, h2⟩
      · exact Or.inl ⟨i, by omega, h2, h3, fun j a b => if e : j = k then e ▸ c else h4 j (by omega) b, h5⟩
      · exact Or.inr ⟨fun j a b => if e : j = k then e ▸ c else h1 j (by omega) b, h2⟩
    · exact Or.inl ⟨k, Nat.le_refl _, hk, c, fun j a b => by omega, rfl⟩
theorem ct_gap {x : BS} {k i : Nat} (h : k ≤ i) (hz : ∀ j, k ≤ j → j < i → x j = false) : fb_ct x i = fb_ct x k := by
  obtain ⟨d, rfl⟩ : ∃ d, i = k + d := ⟨i - k, by omega⟩
  rw [fb_ct_split, fb_ct_zero.mpr (fun j hj => hz (k + j) (by omega) (by omega)), Nat.add_zero]
/-- one step farther -/
theorem p_step (t : Nat) (mm : Int32) (a : cS) {k : Nat} (hk : k ≤ 102) (l : Int32) : (fb_ct (cB a t) k < sz (cB a t) ∧ ∃ i, k ≤ i ∧ i < 102 ∧ cB a t i = true ∧ fb_ct (cB a t) (i + 1) = fb_ct (cB a t) k + 1 ∧ fX6_step t mm (a, nI k, l) = some (.inr (nI i, (a, nI (i + 1), nI i)))) ∨ (fb_ct (cB a t) k = sz (cB a t) ∧ fX6_step t mm (a, nI k, l) = some (.inl (3, (a, nI k, l)))) := by
  unfold fX6_step
  rcases step_L t mm (fun y1_2 s2 => some (.inr (y1_2, (s2.1, y1_2 + 1, y1_2)))) (fun s3 => some (.inl (3, s3))) (a, nI k, l) (102 - k) 1100 k (by omega) (by omega) with ⟨i, h1, h2, h3, h4, h5⟩ | ⟨h1, h2⟩
  · left
    have e := ct_gap h1 h4
    have e2 : fb_ct (cB a t) (i + 1) = fb_ct (cB a t) k + 1 := by rw [ct_succ, if_pos h3]; exact congrArg (· + 1) e
    refine ⟨?_, i, h1, h2, h3, e2, ?_⟩
    · have := fb_ct_mono (cB a t) (show i + 1 ≤ 102 by omega)
      unfold sz
      omega
    · refine h5.trans ?_
      rw [nI_1]
  · right
    exact ⟨(ct_gap hk h1).symm, h2⟩
theorem walk_L (t : Nat) (a : cS) (k0 : kS → Option ((Nat × cS) ⊕ (cS))) : ∀ (d fuel j k : Nat) (l : Int32), j + d = sz (cB a t) → d + 1 < fuel → k ≤ 102 → fb_ct (cB a t) k = j → fX7_walkWrongly_L22 (nI (sz (cB a t))) t 1 k0 fuel (nI j) (a, nI k, l) = some (.inl (3, a)) := by
  have sl := sz_le (cB a t)
  intro d
  induction d with
  | zero =>
    intro fuel j k l h hf hk hj
    obtain ⟨f, rfl⟩ : ∃ f, fuel = f + 1 := ⟨fuel - 1, by omega⟩
    rw [fX7_walkWrongly_L22, if_neg (nI_nlt (by omega) (by omega))]
    rcases p_step t 1 a hk l with ⟨h1, _⟩ | ⟨h1, h2⟩
    · omega
    · rw [h2]
      rfl
  | succ d ih =>
    intro fuel j k l h hf hk hj
    obtain ⟨f, rfl⟩ : ∃ f, fuel = f + 1 := ⟨fuel - 1, by omega⟩
    rw [fX7_walkWrongly_L22, if_neg (nI_nlt (by omega) (by omega))]
    rcases p_step t 1 a hk l with ⟨h1, i, h2, h3, h4, h5, h6⟩ | ⟨h1, h2⟩
    · rw [h6]
      simp only [Option.bind_some, Sum.elim_inr, nI_1]
      exact ih f (j + 1) (i + 1) (nI i) (by omega) (by omega) (by omega) (by omega)
    · omega
theorem three_of {p : Int32} {n : Nat} {M : Int32} (hM : M.toInt = n) (h0 : 0 ≤ p) (h1 : p ≤ M) : ∃ j, j ≤ n ∧ p = nI j := nI_of2 hM (Int32.not_lt.mpr h0) h1
theorem p_walkWrongly {a : cS} (W : Wf a) {j : Nat} (hj : j ≤ 2) : ∃ a', Wf a' ∧ aeq a a' ∧ ((fX7_walkWrongly 24 (nI j) a = some (.inl (3, a')) ∧ (j = 0 ∨ j = 2 ∧ sz (cB a 24) = 0)) ∨ (fX7_walkWrongly 24 (nI j) a = some (.inl (4, a')) ∧ (j = 1 ∨ j = 2 ∧ sz (cB a 24) ≠ 0))) := by
  unfold fX7_walkWrongly
  rcases show j = 0 ∨ j = 1 ∨ j = 2 by omega with rfl | rfl | rfl
  · refine ⟨a, W, aeq_refl a, Or.inl ⟨?_, Or.inl rfl⟩⟩
    rw [if_pos (show nI 0 = 0 from rfl), p_count 24 a W]
    have sl := sz_le (cB a 24)
    exact walk_L 24 a _ (sz (cB a 24)) 1100 0 0 (-1) (by omega) (by omega) (by omega) rfl
  · refine ⟨a, W, aeq_refl a, Or.inr ⟨?_, Or.inl rfl⟩⟩
    rw [if_neg (show ¬ nI 1 = 0 by decide), if_pos (show nI 1 = 1 from rfl)]
    unfold fX6_takeOutLast
    rw [if_neg (show ¬ (1 : Int32) = 0 by decide), if_pos rfl]
    rfl
  · rw [if_neg (show ¬ nI 2 = 0 by decide), if_neg (show ¬ nI 2 = 1 by decide)]
    rcases p_step 24 1 a (k := 0) (by omega) (-1) with ⟨h1, i, h2, h3, h4, h5, h6⟩ | ⟨h1, h2⟩
    · have h6 : fX6_step 24 1 (a, 0, -1) = some (.inr (nI i, (a, nI (i + 1), nI i))) := h6
      obtain ⟨a1, e1, e2, e3⟩ := p_takeOut 24 a h3
      refine ⟨a1, Wf_up W (wf_set (W 24) h3 false) e2, aeq_up (by decide) e2 e3, Or.inr ⟨?_, Or.inr ⟨rfl, ?_⟩⟩⟩
      · rw [h6]
        unfold fX6_takeOutLast
        simp only [Option.bind_some, Sum.elim_inr, if_neg (show ¬ (1 : Int32) = 0 by decide), if_neg (nI_m1 (show i < 2 ^ 31 by omega)), e1, if_true, Sum.elim_inl]
      · have : fb_ct (cB a 24) 0 = 0 := rfl
        omega
    · have h2 : fX6_step 24 1 (a, 0, -1) = some (.inl (3, (a, 0, -1))) := h2
      refine ⟨a, W, aeq_refl a, Or.inl ⟨?_, Or.inr ⟨rfl, ?_⟩⟩⟩
      · rw [h2]
        rfl
      · have : fb_ct (cB a 24) 0 = 0 := rfl
        omega
theorem g_walkRefuses {a : cS} {m : mS} (h : Rel a m) (p q : Int32) : Meets 1 2 (fX7_walkRefuses p q a) (fX8_walkRefuses p q m) := by
  rcases set_or p with ⟨i, hi, rfl⟩ | ⟨s1, s2⟩
  · obtain ⟨s1, s2⟩ := set_in hi
    rcases rng q 0 2 with ⟨q1, q2, q3, q4⟩ | ⟨q1, q2⟩
    · obtain ⟨j, hj, rfl⟩ := three_of (n := 2) (by decide) q3 q4
      obtain ⟨b, e1, e2, e3⟩ := p_become 24 i a
      have Wb := Wf_up h.1 (h.1 i) e2
      have x24 : cB b 24 = cB a i := by rw [e2]; exact zu_at _ _ _
      obtain ⟨a', W', he, hw⟩ := p_walkWrongly Wb hj
      have hR : Rel a' (vI m 0 0) := Rel_keep h (aeq_trans (aeq_up (by decide) e2 e3) he) (meq_v0 m 0) W' h.2.1
      rw [x24] at hw
      have sl := sz_le (cB a i)
      have em : mB (vI m 0 0) i = cB a i := (h.2.2.1 i hi).symm
      rcases hw with ⟨w1, w2⟩ | ⟨w1, w2⟩
      · refine Meets.ok (r := 1) (a' := a') (m' := vI m 0 0) ?_ ?_ rfl hR
        · unfold fX7_walkRefuses
          simp only [s1, q1, Option.bind_some, Sum.elim_inr, Sum.elim_inl, if_pos (lt8 hi), e1, w1, if_true]
        · unfold fX8_walkRefuses
          simp only [s2, q2, pass_0, Option.bind_some, one_0]
          rcases w2 with rfl | ⟨rfl, w2⟩
          · rw [if_pos (show nI 0 = 0 from rfl)]
          · rw [if_neg (show ¬ nI 2 = 0 by decide), if_pos (show nI 2 = 2 from rfl), if_pos (vin8 hi), cl8 hi, m_sizeOf, em, w2]
            rfl
      · refine Meets.ok (r := 2) (a' := a') (m' := vI m 0 0) ?_ ?_ rfl hR
        · unfold fX7_walkRefuses
          simp only [s1, q1, Option.bind_some, Sum.elim_inr, Sum.elim_inl, if_pos (lt8 hi), e1, w1, if_true, if_neg (show ¬ 4 = 3 by decide)]
        · unfold fX8_walkRefuses
          simp only [s2, q2, pass_0, Option.bind_some, one_0]
          rcases w2 with rfl | ⟨rfl, w2⟩
          · rw [if_neg (show ¬ nI 1 = 0 by decide), if_neg (show ¬ nI 1 = 2 by decide)]
          · rw [if_neg (show ¬ nI 2 = 0 by decide), if_pos (show nI 2 = 2 from rfl), if_pos (vin8 hi), cl8 hi, m_sizeOf, em]
            simp only [Option.bind_some]
            rw [if_neg (fun z => w2 ((nI_eq0 (by omega)).mp z))]
    · refine Meets.e2' h ?_ ?_
      · unfold fX7_walkRefuses
        simp only [s1, q1, Option.bind_some, Sum.elim_inr, Sum.elim_inl, if_pos (lt8 hi)]
      · unfold fX8_walkRefuses
        simp only [s2, q2, if_true, pass_2, Option.bind_some]
  · refine Meets.e1 (r := 0) h ?_ ?_
    · unfold fX7_walkRefuses
      simp only [s1, Option.bind_some, Sum.elim_inl]
    · unfold fX8_walkRefuses
      simp only [s2, pass_1, Option.bind_some, if_true]
theorem p_without {n j : Nat} (hj : j ≤ 3) (a : cS) : fX7_isRefusedWithoutOther n (nI j) a = some (.inr (1, a)) := by
  unfold fX7_isRefusedWithoutOther fX2_combine_null fX2_holdsAll_null
  rcases show j = 0 ∨ j = 1 ∨ j = 2 ∨ j = 3 by omega with rfl | rfl | rfl | rfl <;> rfl
theorem g_nullRefuses {a : cS} {m : mS} (h : Rel a m) (p q : Int32) : Meets 1 2 (fX7_nullRefuses p q a) (fX8_nullRefuses p q m) := by
  unfold fX8_nullRefuses
  rw [bind_id]
  rcases set_or p with ⟨i, hi, rfl⟩ | ⟨s1, s2⟩
  · obtain ⟨s1, s2⟩ := set_in hi
    rcases rng q 0 3 with ⟨q1, q2, q3, q4⟩ | ⟨q1, q2⟩
    · obtain ⟨j, hj, rfl⟩ := three_of (n := 3) (by decide) q3 q4
      obtain ⟨b, e1, e2, e3⟩ := p_become 24 i a
      have Wb := Wf_up h.1 (h.1 i) e2
      have x24 : cB b 24 = cB a i := by rw [e2]; exact zu_at _ _ _
      have xi : cB b i = cB a i := by rw [e2]; exact zu_ne _ (by omega) _
      refine Meets.ok (r := 1) (a' := b) (m' := vI m 0 0) ?_ ?_ rfl (Rel_keep h (aeq_up (by decide) e2 e3) (meq_v0 m 0) Wb h.2.1)
      · unfold fX7_nullRefuses
        simp only [s1, q1, Option.bind_some, Sum.elim_inr, if_pos (lt8 hi), e1, p_without hj, one_0, p_sameAs, x24, xi, same_self, if_bi, if_true]
      · rw [s2, q2, pass_0]
    · refine Meets.e2' h ?_ ?_
      · unfold fX7_nullRefuses
        simp only [s1, q1, Option.bind_some, Sum.elim_inr, Sum.elim_inl, if_pos (lt8 hi)]
      · rw [s2, q2, pass_2]
  · refine Meets.e1 (r := 0) h ?_ ?_
    · unfold fX7_nullRefuses
      simp only [s1, Option.bind_some, Sum.elim_inl]
    · rw [s2, pass_1]
theorem p_byView {i j k : Nat} (hi : i < 8) (hj : j ≤ 6) (a : cS) (h6 : j = 6 → sz (cB a i) ≠ 0) : fX7_isRefusedByView (58 + i) (nI j) (nI k) a = some (.inr (1, a)) := by
  unfold fX7_isRefusedByView fX7_changeByView fX5_put fX5_takeOut fX5_combine fX5_empty
  have z := (set_in (i := 0) (by decide)).1 a
  have z : fX7_setAt 0 a = some (.inr (0, a)) := z
  rcases show j = 0 ∨ j = 1 ∨ j = 2 ∨ j = 3 ∨ j = 4 ∨ j = 5 ∨ j = 6 by omega with rfl | rfl | rfl | rfl | rfl | rfl | rfl
  · rfl
  · rfl
  · rw [if_neg (show ¬ nI 2 = 0 by decide), if_neg (show ¬ nI 2 = 1 by decide), if_pos (show nI 2 = 2 from rfl), z]
    rfl
  · rw [if_neg (show ¬ nI 3 = 0 by decide), if_neg (show ¬ nI 3 = 1 by decide), if_neg (show ¬ nI 3 = 2 by decide), if_pos (show nI 3 = 3 from rfl), z]
    rfl
  · rw [if_neg (show ¬ nI 4 = 0 by decide), if_neg (show ¬ nI 4 = 1 by decide), if_neg (show ¬ nI 4 = 2 by decide), if_neg (show ¬ nI 4 = 3 by decide), if_pos (show nI 4 = 4 from rfl), z]
    rfl
  · rfl
  · rw [if_neg (show ¬ nI 6 = 0 by decide), if_neg (show ¬ nI 6 = 1 by decide), if_neg (show ¬ nI 6 = 2 by decide), if_neg (show ¬ nI 6 = 3 by decide), if_neg (show ¬ nI 6 = 4 by decide), if_neg (show ¬ nI 6 = 5 by decide), Nat.add_sub_cancel_left]
    rcases p_step i 0 a (k := 0) (by omega) (-1) with ⟨h1, l, h2, h3, h4, h5, g6⟩ | ⟨h1, h2⟩
    · have g6 : fX6_step i 0 (a, 0, -1) = some (.inr (nI l, (a, nI (l + 1), nI l))) := g6
      rw [g6]
      unfold fX6_takeOutLast
      simp only [Option.bind_some, Sum.elim_inr, Sum.elim_inl, if_true]
    · have : fb_ct (cB a i) 0 = 0 := rfl
      exact absurd (by omega) (h6 rfl)
theorem nI_le0 {n : Nat} (h : n < 2 ^ 31) : nI n ≤ 0 ↔ n = 0 := nI_leI (b := 0) h (by decide) |>.trans (by omega)
theorem g_viewRefuses {a : cS} {m : mS} (h : Rel a m) (p q r : Int32) : Meets 1 2 (fX7_viewRefuses p q r a) (fX8_viewRefuses p q r m) := by
  rcases set_or p with ⟨i, hi, rfl⟩ | ⟨s1, s2⟩
  · obtain ⟨s1, s2⟩ := set_in hi
    have sl := sz_le (cB a i)
    have em : mB (vI m 0 0) i = cB a i := (h.2.2.1 i hi).symm
    rcases rng q 0 6 with ⟨q1, q2, q3, q4⟩ | ⟨q1, q2⟩
    · obtain ⟨j, hj, rfl⟩ := three_of (n := 6) (by decide) q3 q4
      rcases mem_or r with ⟨k, hk, r1, r2, r3⟩ | ⟨r1, r2⟩
      · by_cases e : j = 6 ∧ sz (cB a i) = 0
        · obtain ⟨rfl, e⟩ := e
          refine Meets.ok (r := 0) (a' := a) (m' := vI m 0 0) ?_ ?_ rfl (Rel_v0 h 0)
          · unfold fX7_viewRefuses
            simp only [s1, view_in hi, q1, r1, Option.bind_some, Sum.elim_inr, if_pos (lt8 hi), if_pos (view_rng hi), p_count i a h.1, e]
            rfl
          · unfold fX8_viewRefuses
            simp only [s2, q2, r2, one_0, pass_0, Option.bind_some, vin8 hi, cl8 hi, if_true, m_sizeOf, em, e]
            rfl
        · obtain ⟨b, e1, e2, e3⟩ := p_become 24 i a
          have Wb := Wf_up h.1 (h.1 i) e2
          have x24 : cB b 24 = cB a i := by rw [e2]; exact zu_at _ _ _
          have xi : cB b i = cB a i := by rw [e2]; exact zu_ne _ (by omega) _
          have bv := p_byView (i := i) (j := j) (k := k) hi hj b (fun z => by rw [xi]; exact fun z2 => e ⟨z, z2⟩)
          refine Meets.ok (r := 1) (a' := b) (m' := vI m 0 0) ?_ ?_ rfl (Rel_keep h (aeq_up (by decide) e2 e3) (meq_v0 m 0) Wb h.2.1)
          · unfold fX7_viewRefuses
            simp only [s1, view_in hi, q1, r1, Option.bind_some, Sum.elim_inr, if_pos (lt8 hi), if_pos (view_rng hi), p_count i a h.1]
            by_cases e6 : j = 6
            · subst e6
              rw [if_pos (show nI 6 = 6 from rfl), if_neg (fun z => e ⟨rfl, (nI_eq0 (by omega)).mp z⟩)]
              simp only [e1, Option.bind_some, bv, Sum.elim_inr, one_0, p_sameAs, x24, xi, same_self, if_bi, if_true]
            · rw [if_neg (show ¬ nI j = 6 from fun z => e6 ((nI_eq (b := 6) (by omega) (by decide)).mp z))]
              simp only [e1, Option.bind_some, bv, Sum.elim_inr, one_0, p_sameAs, x24, xi, same_self, if_bi, if_true]
          · unfold fX8_viewRefuses
            simp only [s2, q2, r2, one_0, pass_0, Option.bind_some]
            by_cases e6 : j = 6
            · subst e6
              rw [if_neg (show ¬ nI 6 < 6 by decide), if_pos (vin8 hi), cl8 hi, m_sizeOf, em]
              simp only [Option.bind_some]
              rw [if_neg (fun z => e ⟨rfl, (nI_le0 (by omega)).mp z⟩)]
            · rw [if_pos (show nI j < 6 from nI_lt (b := 6) (by omega) (by decide))]
      · refine Meets.e2' h ?_ ?_
        · unfold fX7_viewRefuses
          simp only [s1, view_in hi, q1, r1, Option.bind_some, Sum.elim_inr, Sum.elim_inl, if_pos (lt8 hi), if_pos (view_rng hi)]
        · unfold fX8_viewRefuses
          simp only [s2, q2, r2, one_0, if_true, pass_2, Option.bind_some]
    · refine Meets.e2' h ?_ ?_
      · unfold fX7_viewRefuses
        simp only [s1, view_in hi, q1, Option.bind_some, Sum.elim_inr, Sum.elim_inl, if_pos (lt8 hi), if_pos (view_rng hi)]
      · unfold fX8_viewRefuses
        simp only [s2, q2, if_true, pass_2, Option.bind_some]
  · refine Meets.e1 (r := 0) h ?_ ?_
    · unfold fX7_viewRefuses
      simp only [s1, Option.bind_some, Sum.elim_inl]
    · unfold fX8_viewRefuses
      simp only [s2, pass_1, Option.bind_some, if_true]
      split
      · rfl
      · split <;> rfl
