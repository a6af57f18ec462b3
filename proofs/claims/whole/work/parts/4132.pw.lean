theorem big7 {M j : Nat} (h : M < 128) (hj : 7 ≤ j) : M.testBit j = false := Nat.testBit_lt_two_pow (Nat.lt_of_lt_of_le h (Nat.pow_le_pow_right (n := 2) (by decide) hj))
theorem p_pw_L {F p c M0 : Nat} {s : cS} (hc : c ≤ 7) (hI : sI s F = nI c) (hM0 : M0 < 128) : ∀ (d fuel k M : Nat), k + d = c → d < fuel → M < 128 → (∀ j, M.testBit j = (decide (j < k) && M0.testBit j && inn (cB s (8 + 8 * F + j)) (cB s p))) → ∃ M', M' < 128 ∧ fX0_placesWithin_L5 F (nI M0) p fuel (nI M) (nI k) s = some (nI M', s) ∧ ∀ j, M'.testBit j = (decide (j < c) && M0.testBit j && inn (cB s (8 + 8 * F + j)) (cB s p)) := by
  intro d
  induction d with
  | zero =>
    intro fuel k M h hf hM hb
    obtain ⟨l, rfl⟩ : ∃ l, fuel = l + 1 := ⟨fuel - 1, by omega⟩
    have : k = c := by omega
    subst this
    rw [fX0_placesWithin_L5, hI, if_pos (nI_le (by omega) (by omega))]
    exact ⟨M, hM, rfl, hb⟩
  | succ d ih =>
    intro fuel k M h hf hM hb
    obtain ⟨l, rfl⟩ : ∃ l, fuel = l + 1 := ⟨fuel - 1, by omega⟩
    have k7 : k < 7 := by omega
    have or := or7 M hM k k7
    have keep : (M0.testBit k && inn (cB s (8 + 8 * F + k)) (cB s p)) = false → ∀ j, M.testBit j = (decide (j < k + 1) && M0.testBit j && inn (cB s (8 + 8 * F + j)) (cB s p)) := fun z j => by
      rw [hb j]
      by_cases e : j = k
      · subst e
        rw [decide_eq_false (Nat.lt_irrefl _), decide_eq_true (Nat.lt_succ_self _), Bool.false_and, Bool.false_and, Bool.true_and, z]
      · rw [show decide (j < k) = decide (j < k + 1) from decide_eq_decide.mpr (by omega)]
    rw [fX0_placesWithin_L5, hI, if_neg (nI_ge (by omega) (by omega)), if_boolf (bt7 M0 hM0 k k7), if_pos (vin7 k7), cl7 k7, p_holdsAll, if_bi, nI_1, or.1]
    cases a : M0.testBit k
    · exact ih l (k + 1) M (by omega) (by omega) hM (keep (by rw [a]; rfl))
    · rw [if_pos rfl]
      cases b : inn (cB s (8 + 8 * F + k)) (cB s p)
      · exact ih l (k + 1) M (by omega) (by omega) hM (keep (by rw [b]; exact Bool.and_false _))
      · rw [if_pos rfl]
        refine ih l (k + 1) (M ||| 2 ^ k) (by omega) (by omega) or.2 (fun j => ?_)
        rw [Nat.testBit_or, Nat.testBit_two_pow, hb j]
        by_cases e : k = j
        · subst e
          rw [decide_eq_true rfl, decide_eq_true (Nat.lt_succ_self _), a, b, Bool.or_true]
          rfl
        · rw [decide_eq_false e, Bool.or_false, show decide (j < k) = decide (j < k + 1) from decide_eq_decide.mpr (by omega)]
theorem p_pw {F c M0 : Nat} (p : Nat) {s : cS} (hc : c ≤ 7) (hI : sI s F = nI c) (hM0 : M0 < 128) : ∃ M, M < 128 ∧ fX0_placesWithin F (nI M0) p s = some (nI M, s) ∧ ∀ j, M.testBit j = (decide (j < c) && M0.testBit j && inn (cB s (8 + 8 * F + j)) (cB s p)) :=
  p_pw_L hc hI hM0 c 1100 0 0 (by omega) (by omega) (by decide) (fun j => by rw [Nat.zero_testBit, decide_eq_false (Nat.not_lt_zero j)]; rfl)
