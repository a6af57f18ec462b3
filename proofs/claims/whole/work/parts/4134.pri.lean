/-- prime sets -/
noncomputable def pri (f : Nat → BS) (c i : Nat) : Bool := !same (un f (fun j => decide (j ≠ i) && inn (f j) (f i)) c) (f i)
theorem pri_cong {f g : Nat → BS} {c i : Nat} (h : ∀ j, j < c → f j = g j) (hi : i < c) : pri f c i = pri g c i := by
  unfold pri
  rw [h i hi, un_cong (fun j hj => by show (decide (j ≠ i) && inn (f j) (g i)) = (decide (j ≠ i) && inn (g j) (g i)); rw [h j hj]) h]
theorem p_primes_L {c : Nat} {s0 : cS} (hc : c ≤ 7) (W : Wf s0) (hI : sI s0 0 = nI c) : ∀ (d fuel k M : Nat) (s : cS), k + d = c → d < fuel → M < 128 → s.2.2 = s0.2.2 → (∀ n, n ≠ 15 → cB s n = cB s0 n) → Wf s → (∀ j, M.testBit j = (decide (j < k) && pri (fun j => cB s0 (8 + 8 * 0 + j)) c j)) → ∃ M' s', M' < 128 ∧ fX0_primePlaces_L4 0 fuel (nI M) (nI k) s = some (nI M', s') ∧ s'.2.2 = s0.2.2 ∧ (∀ n, n ≠ 15 → cB s' n = cB s0 n) ∧ Wf s' ∧ ∀ j, M'.testBit j = (decide (j < c) && pri (fun j => cB s0 (8 + 8 * 0 + j)) c j) := by
  intro d
  induction d with
  | zero =>
    intro fuel k M s h hf hM h2 hB W1 hb
    obtain ⟨l, rfl⟩ : ∃ l, fuel = l + 1 := ⟨fuel - 1, by omega⟩
    have : k = c := by omega
    subst this
    rw [fX0_primePlaces_L4, sI_eq h2, hI, if_pos (nI_le (by omega) (by omega))]
    exact ⟨M, s, hM, rfl, h2, hB, W1, hb⟩
  | succ d ih =>
    intro fuel k M s h hf hM h2 hB W1 hb
    obtain ⟨l, rfl⟩ : ∃ l, fuel = l + 1 := ⟨fuel - 1, by omega⟩
    have k7 : k < 7 := by omega
    have or := or7 M hM k k7
    have ot := oth7 c (by omega) k k7
    have hIs : sI s 0 = nI c := (sI_eq h2 0).trans hI
    have ea : fX0_allPlaces 0 s &&& ((1 <<< (nI k &&& 31)) ^^^ (-1)) = nI (oth c k) := by
      unfold fX0_allPlaces
      rw [hIs]
      exact ot.1
    obtain ⟨M1, q1, q2, q3⟩ := p_pw (8 + 8 * 0 + k) hc hIs ot.2.1
    obtain ⟨s1, r1, r2, r3⟩ := p_un (F := 0) (M := M1) (i := k) (by decide) hc q1 (by omega) hIs
    have W2 : Wf s1 := Wf_up W1 (un_wf (fun j => W1 _) _ _) r3
    have B2 : ∀ n, n ≠ 15 → cB s1 n = cB s0 n := fun n hn => by rw [r3, zu_ne _ hn]; exact hB n hn
    have ep : same (un (fun j => cB s (8 + 8 * 0 + j)) (fun j => M1.testBit j) c) (cB s (8 + 8 * 0 + k)) = !pri (fun j => cB s0 (8 + 8 * 0 + j)) c k := by
      unfold pri
      rw [Bool.not_not, hB _ (by omega)]
      refine congrArg (fun z => same z (cB s0 (8 + 8 * 0 + k))) (un_cong (fun j hj => ?_) (fun j hj => hB _ (by omega)))
      rw [q3 j, ot.2.2 j (by omega), decide_eq_true hj, Bool.true_and, Bool.true_and, hB _ (by omega), hB _ (by omega)]
    rw [fX0_primePlaces_L4, hIs, if_neg (nI_ge (by omega) (by omega)), if_pos (vin7 k7), cl7 k7, ea, q2]
    simp only [Option.bind_some, r1, ep, if_bi, nI_1, or.1]
    cases a : pri (fun j => cB s0 (8 + 8 * 0 + j)) c k
    · simp only [Bool.not_false, if_true]
      refine ih l (k + 1) M s1 (by omega) (by omega) hM (r2.trans h2) B2 W2 (fun j => ?_)
      rw [hb j]
      by_cases e : j = k
      · subst e
        rw [a, Bool.and_false, Bool.and_false]
      · rw [show decide (j < k) = decide (j < k + 1) from decide_eq_decide.mpr (by omega)]
    · simp only [Bool.not_true, Bool.false_eq_true, if_false]
      refine ih l (k + 1) (M ||| 2 ^ k) s1 (by omega) (by omega) or.2 (r2.trans h2) B2 W2 (fun j => ?_)
      rw [Nat.testBit_or, Nat.testBit_two_pow, hb j]
      by_cases e : k = j
      · subst e
        rw [decide_eq_true rfl, decide_eq_true (Nat.lt_succ_self _), a, Bool.or_true]
        rfl
      · rw [decide_eq_false e, Bool.or_false, show decide (j < k) = decide (j < k + 1) from decide_eq_decide.mpr (by omega)]
theorem p_primes {c : Nat} {s : cS} (hc : c ≤ 7) (W : Wf s) (hI : sI s 0 = nI c) : ∃ M s', M < 128 ∧ fX0_primePlaces 0 s = some (nI M, s') ∧ s'.2.2 = s.2.2 ∧ (∀ n, n ≠ 15 → cB s' n = cB s n) ∧ Wf s' ∧ ∀ j, M.testBit j = (decide (j < c) && pri (fun j => cB s (8 + 8 * 0 + j)) c j) :=
  p_primes_L hc W hI c 1100 0 0 s (by omega) (by omega) (by decide) rfl (fun _ _ => rfl) W (fun j => by rw [Nat.zero_testBit, decide_eq_false (Nat.not_lt_zero j)]; rfl)
