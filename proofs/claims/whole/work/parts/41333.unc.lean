theorem p_un {F c M i : Nat} {s : cS} (hF : F < 2) (hc : c ≤ 7) (hM : M < 128) (hi : i < c) (hI : sI s F = nI c) : ∃ s', fX0_isUnionOf F (nI i) (nI M) s = some (bi (same (un (fun j => cB s (8 + 8 * F + j)) (fun j => M.testBit j) c) (cB s (8 + 8 * F + i))), s') ∧ s'.2.2 = s.2.2 ∧ cB s' = va_up (cB s) (15 + 8 * F) (un (fun j => cB s (8 + 8 * F + j)) (fun j => M.testBit j) c) := by
  unfold fX0_isUnionOf
  obtain ⟨s1, e1, e2, e3⟩ := p_empty (15 + 8 * F) s
  obtain ⟨s2, g1, g2, g3⟩ := p_un_L (s0 := s) (i := i) hF hc hM (fun s4 => if vin (nI i) 7 = true then (some ((fX2_sameAs (15 + 8 * F) (8 + 8 * F + (nI i).toNatClampNeg) s4, s4))) else none) (nI i) c 1100 0 s1 (by omega) (by omega) hI e3 (by rw [un]; exact e2)
  refine ⟨s2, ?_, g2, g3⟩
  have e : fX0_isUnionOf_L9 F (nI i) (nI M) (fun s4 => if vin (nI i) 7 = true then (some ((fX2_sameAs (15 + 8 * F) (8 + 8 * F + (nI i).toNatClampNeg) s4, s4))) else none) 1100 0 s1 = _ := g1
  have x1 : cB s2 (15 + 8 * F) = un (fun j => cB s (8 + 8 * F + j)) (fun j => M.testBit j) c := by rw [g3]; exact zu_at _ _ _
  have x2 : cB s2 (8 + 8 * F + i) = cB s (8 + 8 * F + i) := by rw [g3]; exact zu_ne _ (by omega) _
  rw [e1]
  simp only [Option.bind_some]
  rw [e]
  rw [if_pos (vin7 (show i < 7 by omega)), cl7 (show i < 7 by omega), p_sameAs, x1, x2]
