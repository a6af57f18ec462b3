theorem p_un_L {F c M i : Nat} {s0 : cS} (hF : F < 2) (hc : c ≤ 7) (hM : M < 128) (k0 : cS → Option (Int32 × cS)) (x1 : Int32) : ∀ (d fuel k : Nat) (s : cS), k + d = c → d < fuel → sI s0 F = nI c → s.2.2 = s0.2.2 → cB s = va_up (cB s0) (15 + 8 * F) (un (fun j => cB s0 (8 + 8 * F + j)) (fun j => M.testBit j) k) → ∃ s', fX0_isUnionOf_L9 F x1 (nI M) k0 fuel (nI k) s = k0 s' ∧ s'.2.2 = s0.2.2 ∧ cB s' = va_up (cB s0) (15 + 8 * F) (un (fun j => cB s0 (8 + 8 * F + j)) (fun j => M.testBit j) c) := by
  intro d
  induction d with
  | zero =>
    intro fuel k s h hf hI h2 hB
    obtain ⟨l, rfl⟩ : ∃ l, fuel = l + 1 := ⟨fuel - 1, by omega⟩
    have : k = c := by omega
    subst this
    rw [fX0_isUnionOf_L9, sI_eq h2, hI, if_pos (nI_le (by omega) (by omega))]
    exact ⟨s, rfl, h2, hB⟩
  | succ d ih =>
    intro fuel k s h hf hI h2 hB
    obtain ⟨l, rfl⟩ : ∃ l, fuel = l + 1 := ⟨fuel - 1, by omega⟩
    have k7 : k < 7 := by omega
    rw [fX0_isUnionOf_L9, sI_eq h2, hI, if_neg (nI_ge (by omega) (by omega)), if_boolf (bt7 M hM k k7), if_pos (vin7 k7), cl7 k7, nI_1]
    cases a : M.testBit k
    · refine ih l (k + 1) s (by omega) (by omega) hI h2 ?_
      rw [hB, un, a]
      rfl
    · rw [if_pos rfl]
      obtain ⟨s1, e1, e2, e3⟩ := p_combine (15 + 8 * F) 0 (8 + 8 * F + k) s
      rw [e1]
      simp only [Option.bind_some]
      refine ih l (k + 1) s1 (by omega) (by omega) hI (e3.trans h2) ?_
      rw [e2, hB, zu_twice, zu_at, zu_ne _ (by omega), un, a]
      rfl
