/-! ===== fill, sieve, elect ===== -/
theorem sz_set {x : BS} {k : Nat} (hk : k < 102) (v : Bool) : sz (va_up x k v) + (if x k then 1 else 0) = sz x + (if v then 1 else 0) := fb_ct_upd x v hk
theorem nI_mul_succ (first step : Int32) (j : Nat) : first + (nI j + 1) * step = first + nI (j + 1) * step := by rw [nI_1]
theorem isNum_in (p : Int32) (s : cS) (m : mS) : fX7_isNumber p s = fX8_in p (-50) 50 m := rfl
theorem place_num {k : Nat} (hk : k < 102) (h0 : 0 < k) : ∀ m, fX8_placeOfMember (nI k - 51) m = nI k := fun m => by
  have q := k_num k hk h0
  unfold fX8_placeOfMember
  rw [if_neg q.2.2.2.2.1, q.2.2.2.2.2.2]
theorem fill_L (first step : Int32) {i : Nat} (hi : i < 8) (M : Nat) (hM : M < 1000) (y : Int32) (k0 : cS → Option ((Nat × cS) ⊕ (Int32 × cS))) : ∀ (d fuel j : Nat) (a : cS) (m : mS) (c : Nat), j + d = M → d < fuel → Rel a m → c ≤ j → ∃ a' m' c', fX7_fill_L41 first step (nI M) i y k0 fuel (nI j) a = k0 a' ∧ fX8_fill_L57 (nI i) first step (nI M) fuel (nI c) (nI j) m = some (nI c', m') ∧ Rel a' m' ∧ mI m' 0 = mI m 0 ∧ sz (cB a i) + c' = sz (cB a' i) + c := by
  intro d
  induction d with
  | zero =>
    intro fuel j a m c h hf hR hc
    obtain ⟨f, rfl⟩ : ∃ f, fuel = f + 1 := ⟨fuel - 1, by omega⟩
    have : j = M := by omega
    subst this
    refine ⟨a, m, c, ?_, ?_, hR, rfl, rfl⟩
    · rw [fX7_fill_L41, if_pos (nI_le (Nat.le_refl _) (by omega))]
    · rw [fX8_fill_L57, if_pos (nI_le (Nat.le_refl _) (by omega))]
  | succ d ih =>
    intro fuel j a m c h hf hR hc
    obtain ⟨f, rfl⟩ : ∃ f, fuel = f + 1 := ⟨fuel - 1, by omega⟩
    have hj : ¬ nI M ≤ nI j := nI_ge (by omega) (by omega)
    rw [fX7_fill_L41, fX8_fill_L57, if_neg hj, if_neg hj, isNum_in _ a m, nI_1 j, Int32.add_zero]
    rcases rng (first + nI j * step) (-50) 50 with ⟨_, q, q1, q2⟩ | ⟨_, q⟩
    · rw [q m, one_0, one_0]
      obtain ⟨k, k0', k1, e⟩ := num_k q1 q2
      rw [e]
      have kk := k_num k k1 k0'
      rw [kk.2.2.2.2.2.1]
      obtain ⟨a1, e1, e2, e3⟩ := p_put i a k1
      have e4 := m_puts hi k1 (place_num k1 k0') (w := 1) true rfl hR.2.1
      rw [e1, e4]
      simp only [Option.bind_some]
      have hR1 := Rel_set hR hi k1 true e2 e3
      have hz := sz_set (x := cB a i) k1 true
      have e5 : sz (cB a1 i) + (if cB a i k then 1 else 0) = sz (cB a i) + 1 := by rw [e2, zu_at]; exact hz
      rw [Bool.xor_true, if_bi, ← hR.2.2.1 i hi]
      cases cc : cB a i k
      · rw [cc] at e5
        obtain ⟨a', m', c', r1, r2, r3, r4, r5⟩ := ih f (j + 1) a1 _ (c + 1) (by omega) (by omega) hR1 (by omega)
        refine ⟨a', m', c', r1, ?_, r3, r4, ?_⟩
        · simp only [Bool.not_false, if_true]
          rw [nI_1]
          exact r2
        · simp only [Bool.false_eq_true, if_false] at e5
          omega
      · rw [cc] at e5
        obtain ⟨a', m', c', r1, r2, r3, r4, r5⟩ := ih f (j + 1) a1 _ c (by omega) (by omega) hR1 (by omega)
        refine ⟨a', m', c', r1, ?_, r3, r4, ?_⟩
        · simp only [Bool.not_true, Bool.false_eq_true, if_false]
          exact r2
        · simp only [if_true] at e5
          omega
    · rw [q m]
      simp only [if_true]
      exact ih f (j + 1) a m c (by omega) (by omega) hR (by omega)
theorem nI_dif {x y z : Nat} (h : x = y + z) : nI x - nI y = nI z := by
  rw [pk_sub (by omega), h, Nat.add_sub_cancel_left]
theorem Meets.e2' {e1 e2 : Nat} {A : Option ((Nat × cS) ⊕ (Int32 × cS))} {B : Option (Int32 × mS)} {a : cS} {m : mS} (h : Rel a m) (hA : A = some (.inl (e2, a))) (hB : B = some (0, vI m 0 2)) : Meets e1 e2 A B := Meets.e2 h hA hB
theorem g_fill {a : cS} {m : mS} (h : Rel a m) (p q r t : Int32) : Meets 1 2 (fX7_fill p q r t a) (fX8_fill p q r t m) := by
  rcases set_or p with ⟨i, hi, rfl⟩ | ⟨s1, s2⟩
  · obtain ⟨s1, s2⟩ := set_in hi
    rcases rng q (-50) 50 with ⟨q1, q2, _, _⟩ | ⟨q1, q2⟩
    · rcases rng r (-100) 100 with ⟨r1, r2, _, _⟩ | ⟨r1, r2⟩
      · rcases rng t 0 101 with ⟨t1, t2, t3, t4⟩ | ⟨t1, t2⟩
        · obtain ⟨M, hM, rfl⟩ := nI_of2 (x := t) (M := 101) (n := 101) (by decide) (Int32.not_lt.mpr t3) t4
          obtain ⟨a', m', c', f1, f2, f3, f4, f5⟩ := fill_L q r hi M (by omega) (nI (sz (cB a i))) (fun s9 => some (.inr ((fX2_count i s9) - nI (sz (cB a i)), s9))) M 1100 0 a (vI m 0 0) 0 (by omega) (by omega) (Rel_v0 h 0) (Nat.le_refl _)
          refine Meets.ok (r := nI c') (a' := a') (m' := m') ?_ ?_ f4 f3
          · unfold fX7_fill
            simp only [s1, q1, r1, t1, Option.bind_some, Sum.elim_inr, if_pos (lt8 hi), p_count i a h.1]
            refine f1.trans ?_
            simp only [p_count i a' f3.1]
            rw [nI_dif (z := c') (by omega)]
          · unfold fX8_fill
            simp only [s2, q2, r2, t2, one_0, pass_0, Option.bind_some]
            exact f2
        · refine Meets.e2' h ?_ ?_
          · unfold fX7_fill
            simp only [s1, q1, r1, t1, Option.bind_some, Sum.elim_inr, Sum.elim_inl, if_pos (lt8 hi)]
          · unfold fX8_fill
            simp only [s2, q2, r2, t2, one_0, if_true, pass_2, Option.bind_some]
      · refine Meets.e2' h ?_ ?_
        · unfold fX7_fill
          simp only [s1, q1, r1, Option.bind_some, Sum.elim_inr, Sum.elim_inl, if_pos (lt8 hi)]
        · unfold fX8_fill
          simp only [s2, q2, r2, one_0, if_true, pass_2, Option.bind_some]
    · refine Meets.e2' h ?_ ?_
      · unfold fX7_fill
        simp only [s1, q1, Option.bind_some, Sum.elim_inr, Sum.elim_inl, if_pos (lt8 hi)]
      · unfold fX8_fill
        simp only [s2, q2, if_true, pass_2, Option.bind_some]
  · refine Meets.e1 (r := 0) h ?_ ?_
    · unfold fX7_fill
      simp only [s1, Option.bind_some, Sum.elim_inl]
    · unfold fX8_fill
      simp only [s2, pass_1, Option.bind_some, if_true]
      split
      · rfl
      · split
        · rfl
        · split <;> rfl
/-! sieve -/
theorem fm_all : ∀ k, k < 102 → ∀ q, q < 101 → 0 < k → 0 < q → (if (0 : Int32) ≤ ((nI k - 51) ^^^ nI q) then (nI k - 51) - (nI k - 51) / nI q * nI q else if (nI k - 51) - (nI k - 51) / nI q * nI q = 0 then (nI k - 51) - (nI k - 51) / nI q * nI q else (nI k - 51) - (nI k - 51) / nI q * nI q + nI q) = ((nI k - 51) - (nI k - 51) / nI q * nI q + nI q) - ((nI k - 51) - (nI k - 51) / nI q * nI q + nI q) / nI q * nI q := by decide +kernel
theorem k_next : ∀ k, k < 103 → nI k - 51 + 1 = nI (k + 1) - 51 ∧ ((50 : Int32) < nI k - 51 ↔ 102 ≤ k) := by decide +kernel
theorem sieve_L {i : Nat} (hi : i < 8) {q : Nat} (hq0 : 0 < q) (hq : q < 101) (rest y : Int32) (k0 : cS → Option ((Nat × cS) ⊕ (Int32 × cS))) : ∀ (d fuel k : Nat) (a : cS) (m : mS) (c : Nat), k + d = 102 → 0 < k → d < fuel → Rel a m → c ≤ k → ∃ a' m' c', fX7_sieve_L32 (nI q) rest i y k0 fuel (nI k - 51) a = k0 a' ∧ fX8_sieve_L45 (nI i) (nI q) rest fuel (nI c) (nI k - 51) m = some (nI c', m') ∧ Rel a' m' ∧ mI m' 0 = mI m 0 ∧ sz (cB a i) + c = sz (cB a' i) + c' := by
  intro d
  induction d with
  | zero =>
    intro fuel k a m c h h0 hf hR hc
    obtain ⟨f, rfl⟩ : ∃ f, fuel = f + 1 := ⟨fuel - 1, by omega⟩
    have : k = 102 := by omega
    subst this
    refine ⟨a, m, c, ?_, ?_, hR, rfl, rfl⟩
    · rw [fX7_sieve_L32, if_pos (by decide)]
    · rw [fX8_sieve_L45, if_pos (by decide)]
  | succ d ih =>
    intro fuel k a m c h h0 hf hR hc
    obtain ⟨f, rfl⟩ : ∃ f, fuel = f + 1 := ⟨fuel - 1, by omega⟩
    have k1 : k < 102 := by omega
    have kn := k_next k (by omega)
    have hj : ¬ (50 : Int32) < nI k - 51 := fun z => by have := kn.2.mp z; omega
    have q0 : ¬ nI q = 0 := nI_ne0 hq0 (by omega)
    have fm := fm_all k k1 q hq h0 hq0
    have fmj : fJ9_floorMod_7cf53 (nI k - 51) (nI q) a = some (((nI k - 51) - (nI k - 51) / nI q * nI q + nI q) - ((nI k - 51) - (nI k - 51) / nI q * nI q + nI q) / nI q * nI q, a) := by
      unfold fJ9_floorMod_7cf53
      rw [if_pos q0, ← fm]
      split
      · rfl
      · split <;> rfl
    rw [fX7_sieve_L32, fX8_sieve_L45, if_neg hj, if_neg hj, fmj, if_pos q0, if_pos q0, kn.1, Int32.add_zero]
    simp only [Option.bind_some]
    by_cases e : ((nI k - 51) - (nI k - 51) / nI q * nI q + nI q) - ((nI k - 51) - (nI k - 51) / nI q * nI q + nI q) / nI q * nI q = rest
    · rw [if_pos e, if_pos e]
      have kk := k_num k k1 h0
      rw [kk.2.2.2.2.2.1]
      obtain ⟨a1, e1, e2, e3⟩ := p_takeOut i a k1
      have e4 := m_puts hi k1 (place_num k1 h0) (w := 0) false rfl hR.2.1
      rw [e1, e4]
      simp only [Option.bind_some]
      have hR1 := Rel_set hR hi k1 false e2 e3
      have hz := sz_set (x := cB a i) k1 false
      simp only [Bool.false_eq_true, if_false, Nat.add_zero] at hz
      have e5 : sz (cB a1 i) + (if cB a i k then 1 else 0) = sz (cB a i) := by rw [e2, zu_at]; exact hz
      rw [Bool.xor_false, if_bi, ← hR.2.2.1 i hi]
      cases cc : cB a i k
      · rw [cc] at e5
        obtain ⟨a', m', c', r1, r2, r3, r4, r5⟩ := ih f (k + 1) a1 _ c (by omega) (by omega) (by omega) hR1 (by omega)
        refine ⟨a', m', c', r1, ?_, r3, r4, ?_⟩
        · simp only [Bool.false_eq_true, if_false]
          exact r2
        · simp only [Bool.false_eq_true, if_false] at e5
          omega
      · rw [cc] at e5
        obtain ⟨a', m', c', r1, r2, r3, r4, r5⟩ := ih f (k + 1) a1 _ (c + 1) (by omega) (by omega) (by omega) hR1 (by omega)
        refine ⟨a', m', c', r1, ?_, r3, r4, ?_⟩
        · simp only [if_true]
          rw [nI_1]
          exact r2
        · simp only [if_true] at e5
          omega
    · rw [if_neg e, if_neg e]
      exact ih f (k + 1) a m c (by omega) (by omega) (by omega) hR (by omega)
theorem g_sieve {a : cS} {m : mS} (h : Rel a m) (p q r : Int32) : Meets 1 2 (fX7_sieve p q r a) (fX8_sieve p q r m) := by
  rcases set_or p with ⟨i, hi, rfl⟩ | ⟨s1, s2⟩
  · obtain ⟨s1, s2⟩ := set_in hi
    rcases rng q 1 100 with ⟨q1, q2, q3, q4⟩ | ⟨q1, q2⟩
    · rcases rng r 0 99 with ⟨r1, r2, _, _⟩ | ⟨r1, r2⟩
      · have q5 : ¬ q < 0 := fun z => absurd (Int32.lt_of_lt_of_le z (Int32.le_trans (show (0 : Int32) ≤ 1 from by decide) q3)) Int32.lt_irrefl
        obtain ⟨Q, hQ, rfl⟩ := nI_of2 (x := q) (M := 100) (n := 100) (by decide) q5 q4
        have hQ0 : 0 < Q := by
          rcases Nat.eq_zero_or_pos Q with z | z
          · subst z
            exact absurd q3 (by decide)
          · exact z
        obtain ⟨a', m', c', f1, f2, f3, f4, f5⟩ := sieve_L hi hQ0 (by omega) r (nI (sz (cB a i))) (fun s8 => some (.inr (nI (sz (cB a i)) - (fX2_count i s8), s8))) 101 1100 1 a (vI m 0 0) 0 rfl (by decide) (by decide) (Rel_v0 h 0) (by decide)
        refine Meets.ok (r := nI c') (a' := a') (m' := m') ?_ ?_ f4 f3
        · unfold fX7_sieve
          simp only [s1, q1, r1, Option.bind_some, Sum.elim_inr, if_pos (lt8 hi), p_count i a h.1]
          refine f1.trans ?_
          simp only [p_count i a' f3.1]
          rw [nI_dif (z := c') (by omega)]
        · unfold fX8_sieve
          simp only [s2, q2, r2, one_0, pass_0, Option.bind_some]
          exact f2
      · refine Meets.e2' h ?_ ?_
        · unfold fX7_sieve
          simp only [s1, q1, r1, Option.bind_some, Sum.elim_inr, Sum.elim_inl, if_pos (lt8 hi)]
        · unfold fX8_sieve
          simp only [s2, q2, r2, one_0, if_true, pass_2, Option.bind_some]
    · refine Meets.e2' h ?_ ?_
      · unfold fX7_sieve
        simp only [s1, q1, Option.bind_some, Sum.elim_inr, Sum.elim_inl, if_pos (lt8 hi)]
      · unfold fX8_sieve
        simp only [s2, q2, if_true, pass_2, Option.bind_some]
  · refine Meets.e1 (r := 0) h ?_ ?_
    · unfold fX7_sieve
      simp only [s1, Option.bind_some, Sum.elim_inl]
    · unfold fX8_sieve
      simp only [s2, pass_1, Option.bind_some, if_true]
      split
      · rfl
      · split <;> rfl
/-! elect -/
theorem row_loopK {β : Type} (W : Nat → Int32 → mS → β) (c : Nat) (G : (Nat → Bool) → Bool) (k0 : mS → β) (hend : ∀ f m, W (f + 1) (nI 102) m = k0 m) (hstep : ∀ f k m, k < 102 → Vm m → W (f + 1) (nI k) m = W f (nI (k + 1)) (vR m c k (bi (G (fun r => mB m r k))))) {m : mS} (V : Vm m) : ∃ m', W 1100 0 m = k0 m' ∧ Vm m' ∧ mB m' = va_up (mB m) c (fun k => decide (k < 102) && G (fun r => mB m r k)) ∧ m'.2 = m.2 := by
  have key : ∀ (d fuel k : Nat) (mk : mS), k + d = 102 → d < fuel → Vm mk → mk.2 = m.2 → (∀ r j, j < 102 → mB mk r j = if r = c ∧ j < k then G (fun r => mB m r j) else mB m r j) → ∃ m', W fuel (nI k) mk = k0 m' ∧ Vm m' ∧ m'.2 = m.2 ∧ (∀ r j, j < 102 → mB m' r j = if r = c ∧ j < 102 then G (fun r => mB m r j) else mB m r j) := by
    intro d
    induction d with
    | zero =>
      intro fuel k mk h hf V1 h2 h3
      obtain ⟨f, rfl⟩ : ∃ f, fuel = f + 1 := ⟨fuel - 1, by omega⟩
      have : k = 102 := by omega
      subst this
      exact ⟨mk, hend f mk, V1, h2, h3⟩
    | succ d ih =>
      intro fuel k mk h hf V1 h2 h3
      obtain ⟨f, rfl⟩ : ∃ f, fuel = f + 1 := ⟨fuel - 1, by omega⟩
      rw [hstep f k mk (by omega) V1]
      have ea : (fun r => mB mk r k) = fun r => mB m r k := by
        funext r
        rw [h3 r k (by omega), if_neg (fun z => by omega)]
      rw [ea]
      refine ih f (k + 1) _ (by omega) (by omega) (Vm_vR V1 _ _ _) h2 (fun r j hj => ?_)
      rw [mB_vR mk (by omega), h3 r j hj]
      by_cases e : r = c
      · by_cases g : j = k
        · subst g
          rw [if_pos ⟨e, rfl⟩, if_pos ⟨e, by omega⟩]
        · rw [if_neg (fun z => g z.2)]
          by_cases l : j < k
          · rw [if_pos ⟨e, l⟩, if_pos ⟨e, by omega⟩]
          · rw [if_neg (fun z => l z.2), if_neg (fun z => by omega)]
      · rw [if_neg (fun z => e z.1), if_neg (fun z => e z.1), if_neg (fun z => e z.1)]
  obtain ⟨m', h1, h2, h3, h4⟩ := key 102 1100 0 m rfl (by decide) V rfl (fun r j _ => by rw [if_neg (fun z => by omega)])
  refine ⟨m', h1, h2, ?_, h3⟩
  funext r
  by_cases e : r = c
  · subst e
    rw [zu_at]
    funext k
    by_cases g : k < 102
    · rw [h4 r k g, if_pos ⟨rfl, g⟩, decide_eq_true g, Bool.true_and]
    · rw [mB_wf m' r k (by omega), decide_eq_false g, Bool.false_and]
  · rw [zu_ne _ e]
    funext k
    by_cases g : k < 102
    · rw [h4 r k g, if_neg (fun z => e z.1)]
    · rw [mB_wf m' r k (by omega), mB_wf m r k (by omega)]
/-- the elected -/
def el (Q : Nat) (f : Nat → BS) : BS := fun k => decide (k < 102) && decide (Q ≤ vt f k)
theorem el_wf (Q : Nat) (f : Nat → BS) : wfB (el Q f) := fun k hk => by
  unfold el
  rw [decide_eq_false (by omega), Bool.false_and]
theorem p_elect_L {Q : Nat} (hQ : Q ≤ 8) (i : Nat) (k0 : cS → Option ((Nat × cS) ⊕ (Int32 × cS))) (a : cS) : ∀ (d fuel k : Nat) (b : cS), k + d = 102 → d < fuel → (∀ n, n ≠ 24 → cB b n = cB a n) → b.2.2 = a.2.2 → cB b 24 = (fun j => decide (j < k) && decide (Q ≤ vt (cB a) j)) → ∃ b', fX7_elect_L23 (nI Q) i k0 fuel (nI k) b = k0 b' ∧ cB b' = va_up (cB a) 24 (el Q (cB a)) ∧ b'.2.2 = a.2.2 := by
  intro d
  induction d with
  | zero =>
    intro fuel k b h hf h1 h2 h3
    obtain ⟨f, rfl⟩ : ∃ f, fuel = f + 1 := ⟨fuel - 1, by omega⟩
    have : k = 102 := by omega
    subst this
    rw [fX7_elect_L23, if_pos (show (102 : Int32) ≤ nI 102 from by decide)]
    refine ⟨b, rfl, ?_, h2⟩
    funext n
    by_cases e : n = 24
    · rw [e, zu_at]
      exact h3
    · rw [zu_ne _ e]
      exact h1 n e
  | succ d ih =>
    intro fuel k b h hf h1 h2 h3
    obtain ⟨f, rfl⟩ : ∃ f, fuel = f + 1 := ⟨fuel - 1, by omega⟩
    have hk : k < 102 := by omega
    have ev : vt (cB b) k = vt (cB a) k := fb_ct_cong fun n hn => by
      show cB b n k = cB a n k
      rw [h1 n (by omega)]
    have vl := vt_le (cB a) k
    rw [fX7_elect_L23, if_neg (ge_102 hk), p_votes b hk, ev, nI_1]
    simp only [Option.bind_some]
    by_cases c : vt (cB a) k < Q
    · rw [if_pos (nI_lt c (by omega))]
      refine ih f (k + 1) b (by omega) (by omega) h1 h2 ?_
      rw [h3]
      funext j
      by_cases e : j = k
      · subst e
        rw [decide_eq_false (Nat.lt_irrefl _), decide_eq_false (show ¬ Q ≤ vt (cB a) j by omega), Bool.false_and, Bool.and_false]
      · have : decide (j < k) = decide (j < k + 1) := by
          apply decide_eq_decide.mpr
          omega
        rw [this]
    · rw [if_neg (nI_nlt (by omega) (by omega))]
      obtain ⟨b1, e1, e2, e3⟩ := p_put 24 b hk
      rw [e1]
      simp only [Option.bind_some]
      refine ih f (k + 1) b1 (by omega) (by omega) (fun n hn => ?_) (e3.trans h2) ?_
      · rw [e2, zu_ne _ hn]
        exact h1 n hn
      · rw [e2, zu_at, h3]
        funext j
        by_cases e : j = k
        · subst e
          rw [zu_at, decide_eq_true (Nat.lt_succ_self _), decide_eq_true (show Q ≤ vt (cB a) j by omega)]
          rfl
        · rw [zu_ne _ e]
          have : decide (j < k) = decide (j < k + 1) := by
            apply decide_eq_decide.mpr
            omega
          rw [this]
theorem g_elect {a : cS} {m : mS} (h : Rel a m) (p q : Int32) : Meets 1 2 (fX7_elect p q a) (fX8_elect p q m) := by
  rcases set_or p with ⟨i, hi, rfl⟩ | ⟨s1, s2⟩
  · obtain ⟨s1, s2⟩ := set_in hi
    rcases rng q 1 8 with ⟨q1, q2, q3, q4⟩ | ⟨q1, q2⟩
    · have q5 : ¬ q < 0 := fun z => absurd (Int32.lt_of_lt_of_le z (Int32.le_trans (show (0 : Int32) ≤ 1 from by decide) q3)) Int32.lt_irrefl
      obtain ⟨Q, hQ, rfl⟩ := nI_of2 (x := q) (M := 8) (n := 8) (by decide) q5 q4
      obtain ⟨b0, e1, e2, e3⟩ := p_empty 24 a
      obtain ⟨b1, f1, f2, f3⟩ := p_elect_L hQ i (fun s7 => (fX2_become i 24 s7).bind (fun s8 => some (.inr (fX2_count i s8, s8)))) a 102 1100 0 b0 rfl (by decide) (fun n hn => by rw [e2, zu_ne _ hn]) e3 (by
        rw [e2, zu_at]
        funext j
        rw [decide_eq_false (Nat.not_lt_zero j), Bool.false_and])
      obtain ⟨b2, g1, g2, g3⟩ := p_become i 24 b1
      have W1 : Wf b1 := Wf_up h.1 (el_wf Q (cB a)) f2
      have x24 : cB b1 24 = el Q (cB a) := by rw [f2, zu_at]
      rw [x24] at g2
      have W2 : Wf b2 := Wf_up W1 (el_wf Q (cB a)) g2
      have y : cB b2 i = el Q (cB a) := by rw [g2, zu_at]
      obtain ⟨m', k1, k2, k3, k4⟩ := row_loopK (fX8_elect_L22 (nI i) (nI Q) (fun s8 => if vin (nI i) 8 = true then ((fX8_sizeOf (nI i).toNatClampNeg s8).bind (fun (r10, s10) => some ((r10, s10)))) else none)) i (fun col => decide (Q ≤ fb_ct col 8)) (fun s8 => if vin (nI i) 8 = true then ((fX8_sizeOf (nI i).toNatClampNeg s8).bind (fun (r10, s10) => some ((r10, s10)))) else none) (fun f m => by rw [fX8_elect_L22, if_pos (show (102 : Int32) ≤ nI 102 from by decide)]) (fun f k m hk V => by
        rw [fX8_elect_L22, if_neg (ge_102 hk), if_pos (vin8 hi), m_votes m hk, nI_1]
        simp only [Option.bind_some, vin102 hk, cl102 hk, cl8 hi, if_true, nb_0, nb_1]
        have vl := vt_le (mB m) k
        by_cases c : vt (mB m) k < Q
        · rw [if_pos (nI_lt c (by omega)), decide_eq_false (show ¬ Q ≤ fb_ct (fun r => mB m r k) 8 from by show ¬ Q ≤ vt (mB m) k; omega)]
        · rw [if_neg (nI_nlt (by omega) (by omega)), decide_eq_true (show Q ≤ fb_ct (fun r => mB m r k) 8 from by show Q ≤ vt (mB m) k; omega)]) (Vm_vI h.2.1 0 0)
      have k3 : mB m' = va_up (mB m) i (el Q (cB a)) := by
        rw [k3, mB_vI]
        refine congrArg (va_up (mB m) i) ?_
        funext k
        unfold el
        rw [← vt_eq h k]
        rfl
      refine Meets.ok (r := nI (sz (el Q (cB a)))) (a' := b2) (m' := m') ?_ ?_ (mI_eq k4 0) ?_
      · unfold fX7_elect
        simp only [s1, q1, Option.bind_some, Sum.elim_inr, if_pos (lt8 hi), e1]
        refine f1.trans ?_
        simp only [g1, Option.bind_some, p_count i b2 W2, y]
      · unfold fX8_elect
        simp only [s2, q2, pass_0, Option.bind_some, one_0]
        refine k1.trans ?_
        simp only [vin8 hi, if_true, cl8 hi, m_sizeOf, Option.bind_some]
        rw [k3, zu_at]
      · have h1 : Rel b1 m := Rel_keep h (aeq_up (by decide) f2 f3) (meq_refl m) W1 h.2.1
        exact Rel_row h1 hi (el_wf Q (cB a)) g2 g3 (fun r _ _ => by rw [k3]) (mI_eq k4 1) (mI_eq k4 3) (mT_eq (m := vI m 0 0) k4) k2
    · refine Meets.e2' h ?_ ?_
      · unfold fX7_elect
        simp only [s1, q1, Option.bind_some, Sum.elim_inr, Sum.elim_inl, if_pos (lt8 hi)]
      · unfold fX8_elect
        simp only [s2, q2, if_true, pass_2, Option.bind_some]
  · refine Meets.e1 (r := 0) h ?_ ?_
    · unfold fX7_elect
      simp only [s1, Option.bind_some, Sum.elim_inl]
    · unfold fX8_elect
      simp only [s2, pass_1, Option.bind_some, if_true]
