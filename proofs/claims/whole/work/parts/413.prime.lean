/-! ===== isChain, primes ===== -/
noncomputable def nst (f : Nat → BS) (i j : Nat) : Bool := inn (f i) (f j) || inn (f j) (f i)
theorem nst_comm (f : Nat → BS) (i j : Nat) : nst f i j = nst f j i := Bool.or_comm _ _
theorem p_chain_L {F c i : Nat} {s : cS} (hc : c ≤ 7) (hI : sI s F = nI c) (hi : i < c) (k0 : cS → Option (Int32 × cS)) : ∀ (d fuel j : Nat), j + d = c → d < fuel → ((∀ q, j ≤ q → q < c → nst (fun j => cB s (8 + 8 * F + j)) i q = true) ∧ fX0_allNested_L14 F (nI i) k0 fuel (nI j) s = k0 s) ∨ ((∃ q, j ≤ q ∧ q < c ∧ nst (fun j => cB s (8 + 8 * F + j)) i q = false) ∧ fX0_allNested_L14 F (nI i) k0 fuel (nI j) s = some (0, s)) := by
  intro d
  induction d with
  | zero =>
    intro fuel j h hf
    obtain ⟨l, rfl⟩ : ∃ l, fuel = l + 1 := ⟨fuel - 1, by omega⟩
    left
    rw [fX0_allNested_L14, hI, if_pos (nI_le (by omega) (by omega))]
    exact ⟨fun q h1 h2 => by omega, rfl⟩
  | succ d ih =>
    intro fuel j h hf
    obtain ⟨l, rfl⟩ : ∃ l, fuel = l + 1 := ⟨fuel - 1, by omega⟩
    have i7 : i < 7 := by omega
    have j7 : j < 7 := by omega
    have e : nst (fun j => cB s (8 + 8 * F + j)) i j = (inn (cB s (8 + 8 * F + i)) (cB s (8 + 8 * F + j)) || inn (cB s (8 + 8 * F + j)) (cB s (8 + 8 * F + i))) := rfl
    rw [fX0_allNested_L14, hI, if_neg (nI_ge (by omega) (by omega))]
    simp only [vin7 i7, vin7 j7, cl7 i7, cl7 j7, if_true, p_holdsAll, if_bi, nI_1]
    have st : nst (fun j => cB s (8 + 8 * F + j)) i j = true → ((∀ q, j ≤ q → q < c → nst (fun j => cB s (8 + 8 * F + j)) i q = true) ∧ fX0_allNested_L14 F (nI i) k0 l (nI (j + 1)) s = k0 s) ∨ ((∃ q, j ≤ q ∧ q < c ∧ nst (fun j => cB s (8 + 8 * F + j)) i q = false) ∧ fX0_allNested_L14 F (nI i) k0 l (nI (j + 1)) s = some (0, s)) := fun hn => by
      rcases ih l (j + 1) (by omega) (by omega) with ⟨g1, g2⟩ | ⟨⟨q, g1, g2, g3⟩, g4⟩
      · exact Or.inl ⟨fun q h1 h2 => if z : q = j then z ▸ hn else g1 q (by omega) h2, g2⟩
      · exact Or.inr ⟨⟨q, by omega, g2, g3⟩, g4⟩
    cases a : inn (cB s (8 + 8 * F + j)) (cB s (8 + 8 * F + i))
    · cases b : inn (cB s (8 + 8 * F + i)) (cB s (8 + 8 * F + j))
      · right
        exact ⟨⟨j, Nat.le_refl _, by omega, by rw [e, a, b]; rfl⟩, rfl⟩
      · exact st (by rw [e, a, b]; rfl)
    · exact st (by rw [e, a]; exact Bool.or_true _)
theorem p_chain_L2 {F c : Nat} {s : cS} (hc : c ≤ 7) (hI : sI s F = nI c) : ∀ (d fuel i : Nat), i + d = c → d < fuel → ((∀ p q, i ≤ p → p < q → q < c → nst (fun j => cB s (8 + 8 * F + j)) p q = true) ∧ fX0_allNested_L2 F fuel (nI i) s = some (1, s)) ∨ ((∃ p q, i ≤ p ∧ p < q ∧ q < c ∧ nst (fun j => cB s (8 + 8 * F + j)) p q = false) ∧ fX0_allNested_L2 F fuel (nI i) s = some (0, s)) := by
  intro d
  induction d with
  | zero =>
    intro fuel i h hf
    obtain ⟨l, rfl⟩ : ∃ l, fuel = l + 1 := ⟨fuel - 1, by omega⟩
    left
    rw [fX0_allNested_L2, hI, if_pos (nI_le (by omega) (by omega))]
    exact ⟨fun p q h1 h2 h3 => by omega, rfl⟩
  | succ d ih =>
    intro fuel i h hf
    obtain ⟨l, rfl⟩ : ∃ l, fuel = l + 1 := ⟨fuel - 1, by omega⟩
    rw [fX0_allNested_L2, hI, if_neg (nI_ge (by omega) (by omega)), nI_1]
    rcases p_chain_L hc hI (show i < c by omega) (fun s7 => fX0_allNested_L2 F l (nI (i + 1)) s7) (c - (i + 1)) 1100 (i + 1) (by omega) (by omega) with ⟨g1, g2⟩ | ⟨⟨q, g1, g2, g3⟩, g4⟩
    · rw [g2]
      rcases ih l (i + 1) (by omega) (by omega) with ⟨k1, k2⟩ | ⟨⟨p, q, k1, k2, k3, k4⟩, k5⟩
      · exact Or.inl ⟨fun p q h1 h2 h3 => if z : p = i then z ▸ g1 q (by omega) h3 else k1 p q (by omega) h2 h3, k2⟩
      · exact Or.inr ⟨⟨p, q, by omega, k2, k3, k4⟩, k5⟩
    · exact Or.inr ⟨⟨i, q, Nat.le_refl _, by omega, g2, g3⟩, g4⟩
theorem m_chain_L {c i : Nat} {m : mS} (hc : c ≤ 7) (hi : i < c) (k0 : mS → Option (Int32 × mS)) : ∀ (d fuel j : Nat), j + d = i → d < fuel → ((∀ q, j ≤ q → q < i → nst (fun j => mB m (9 + 7 * 0 + j)) i q = true) ∧ fX8_isChain_L17 (nI i) k0 fuel (nI j) m = k0 m) ∨ ((∃ q, j ≤ q ∧ q < i ∧ nst (fun j => mB m (9 + 7 * 0 + j)) i q = false) ∧ fX8_isChain_L17 (nI i) k0 fuel (nI j) m = some (0, m)) := by
  intro d
  induction d with
  | zero =>
    intro fuel j h hf
    obtain ⟨l, rfl⟩ : ∃ l, fuel = l + 1 := ⟨fuel - 1, by omega⟩
    left
    rw [fX8_isChain_L17, if_pos (nI_le (by omega) (by omega))]
    exact ⟨fun q h1 h2 => by omega, rfl⟩
  | succ d ih =>
    intro fuel j h hf
    obtain ⟨l, rfl⟩ : ∃ l, fuel = l + 1 := ⟨fuel - 1, by omega⟩
    have i7 : i < 7 := by omega
    have j7 : j < 7 := by omega
    have e : nst (fun j => mB m (9 + 7 * 0 + j)) i j = (inn (mB m (9 + 7 * 0 + i)) (mB m (9 + 7 * 0 + j)) || inn (mB m (9 + 7 * 0 + j)) (mB m (9 + 7 * 0 + i))) := rfl
    rw [fX8_isChain_L17, if_neg (nI_ge (by omega) (by omega))]
    simp only [vin7 i7, vin7 j7, cl7 i7, cl7 j7, if_true, m_lies, Option.bind_some, if_bi, nI_1]
    have st : nst (fun j => mB m (9 + 7 * 0 + j)) i j = true → ((∀ q, j ≤ q → q < i → nst (fun j => mB m (9 + 7 * 0 + j)) i q = true) ∧ fX8_isChain_L17 (nI i) k0 l (nI (j + 1)) m = k0 m) ∨ ((∃ q, j ≤ q ∧ q < i ∧ nst (fun j => mB m (9 + 7 * 0 + j)) i q = false) ∧ fX8_isChain_L17 (nI i) k0 l (nI (j + 1)) m = some (0, m)) := fun hn => by
      rcases ih l (j + 1) (by omega) (by omega) with ⟨g1, g2⟩ | ⟨⟨q, g1, g2, g3⟩, g4⟩
      · exact Or.inl ⟨fun q h1 h2 => if z : q = j then z ▸ hn else g1 q (by omega) h2, g2⟩
      · exact Or.inr ⟨⟨q, by omega, g2, g3⟩, g4⟩
    cases a : inn (mB m (9 + 7 * 0 + i)) (mB m (9 + 7 * 0 + j))
    · cases b : inn (mB m (9 + 7 * 0 + j)) (mB m (9 + 7 * 0 + i))
      · right
        exact ⟨⟨j, Nat.le_refl _, by omega, by rw [e, a, b]; rfl⟩, rfl⟩
      · exact st (by rw [e, a, b]; rfl)
    · exact st (by rw [e, a]; rfl)
theorem m_chain_L2 {c : Nat} {m : mS} (hc : c ≤ 7) (hI : mI m 1 = nI c) : ∀ (d fuel i : Nat), i + d = c → d < fuel → ((∀ p q, i ≤ p → q < p → p < c → nst (fun j => mB m (9 + 7 * 0 + j)) p q = true) ∧ fX8_isChain_L7 fuel (nI i) m = some (1, m)) ∨ ((∃ p q, i ≤ p ∧ q < p ∧ p < c ∧ nst (fun j => mB m (9 + 7 * 0 + j)) p q = false) ∧ fX8_isChain_L7 fuel (nI i) m = some (0, m)) := by
  intro d
  induction d with
  | zero =>
    intro fuel i h hf
    obtain ⟨l, rfl⟩ : ∃ l, fuel = l + 1 := ⟨fuel - 1, by omega⟩
    left
    rw [fX8_isChain_L7, hI, if_pos (nI_le (by omega) (by omega))]
    exact ⟨fun p q h1 h2 h3 => by omega, rfl⟩
  | succ d ih =>
    intro fuel i h hf
    obtain ⟨l, rfl⟩ : ∃ l, fuel = l + 1 := ⟨fuel - 1, by omega⟩
    rw [fX8_isChain_L7, hI, if_neg (nI_ge (by omega) (by omega)), nI_1]
    rcases m_chain_L (m := m) hc (show i < c by omega) (fun s7 => fX8_isChain_L7 l (nI (i + 1)) s7) i 1100 0 (by omega) (by omega) with ⟨g1, g2⟩ | ⟨⟨q, g1, g2, g3⟩, g4⟩
    · rw [show fX8_isChain_L17 (nI i) (fun s7 => fX8_isChain_L7 l (nI (i + 1)) s7) 1100 0 m = _ from g2]
      rcases ih l (i + 1) (by omega) (by omega) with ⟨k1, k2⟩ | ⟨⟨p, q, k1, k2, k3, k4⟩, k5⟩
      · exact Or.inl ⟨fun p q h1 h2 h3 => if z : p = i then (by subst z; exact g1 q (Nat.zero_le _) h2) else k1 p q (by omega) h2 h3, k2⟩
      · exact Or.inr ⟨⟨p, q, by omega, k2, k3, k4⟩, k5⟩
    · exact Or.inr ⟨⟨i, q, Nat.le_refl _, g2, by omega, g3⟩, g4⟩
theorem g_isChain {a : cS} {m : mS} (h : Rel a m) : Meet0 (fX7_isChain a) (fX8_isChain m) := by
  obtain ⟨c, hc, f1, f2, f3⟩ := h.2.2.2.1
  have fe := fam_eq f3
  have ne : ∀ p q, p < c → q < c → nst (fun j => cB a (8 + 8 * 0 + j)) p q = nst (fun j => mB m (9 + 7 * 0 + j)) p q := fun p q hp hq => by
    unfold nst
    show (inn (cB a (8 + 8 * 0 + p)) (cB a (8 + 8 * 0 + q)) || inn (cB a (8 + 8 * 0 + q)) (cB a (8 + 8 * 0 + p))) = _
    rw [fe p hp, fe q hq]
  have A := p_chain_L2 (F := 0) hc f1 c 1100 0 (by omega) (by omega)
  have B := m_chain_L2 (m := vI m 0 0) hc f2 c 1100 0 (by omega) (by omega)
  unfold fX7_isChain fX8_isChain fX0_allNested
  rcases A with ⟨a1, a2⟩ | ⟨⟨p, q, a1, a2, a3, a4⟩, a5⟩
  · rcases B with ⟨b1, b2⟩ | ⟨⟨p, q, b1, b2, b3, b4⟩, b5⟩
    · rw [show fX0_allNested_L2 0 1100 0 a = _ from a2]
      exact ⟨1, a, vI m 0 0, rfl, b2, Rel_v0 h 0⟩
    · have b4 : nst (fun j => mB m (9 + 7 * 0 + j)) p q = false := b4
      have := a1 q p (Nat.zero_le _) b2 b3
      rw [ne q p (by omega) b3, nst_comm, b4] at this
      exact Bool.noConfusion this
  · rcases B with ⟨b1, b2⟩ | ⟨⟨p', q', b1, b2, b3, b4⟩, b5⟩
    · have : nst (fun j => mB m (9 + 7 * 0 + j)) q p = true := b1 q p (Nat.zero_le _) a2 a3
      rw [ne p q (by omega) a3, nst_comm, this] at a4
      exact Bool.noConfusion a4
    · rw [show fX0_allNested_L2 0 1100 0 a = _ from a5]
      exact ⟨0, a, vI m 0 0, rfl, b5, Rel_v0 h 0⟩
/-! places as bits -/
theorem bt7 : ∀ M, M < 128 → ∀ k, k < 7 → (((nI M >>> (nI k &&& 31)) &&& 1) = 0 ↔ M.testBit k = false) := by decide +kernel
theorem or7 : ∀ M, M < 128 → ∀ k, k < 7 → (nI M ||| (1 <<< (nI k &&& 31))) = nI (M ||| 2 ^ k) ∧ M ||| 2 ^ k < 128 := by decide +kernel
def oth (c i : Nat) : Nat := (2 ^ c - 1) &&& (127 ^^^ 2 ^ i)
theorem oth7 : ∀ c, c < 8 → ∀ i, i < 7 → ((((1 : Int32) <<< (nI c &&& (31 : Int32)) : Int32) - (1 : Int32) : Int32) &&& (((1 : Int32) <<< (nI i &&& (31 : Int32)) : Int32) ^^^ (-1 : Int32))) = nI (oth c i) ∧ oth c i < 128 ∧ ∀ j, j < 7 → (oth c i).testBit j = (decide (j < c) && decide (j ≠ i)) := by decide +kernel
theorem big7 {M j : Nat} (h : M < 128) (hj : 7 ≤ j) : M.testBit j = false := Nat.testBit_lt_two_pow (Nat.lt_of_lt_of_le h (Nat.pow_le_pow_right (n := 2) (by decide) hj))
theorem p_pw_L {F p c M0 : Nat} {s : cS} (hc : c ≤ 7) (hI : sI s F = nI c) (hM0 : M0 < 128) : ∀ (d fuel k M : Nat), k + d = c → d < fuel → M < 128 → (∀ j, M.testBit j = (decide (j < k) && M0.testBit j && inn (cB s (8 + 8 * F + j)) (cB s p))) → ∃ M', M' < 128 ∧ fX0_placesWithin_L5 F (nI M0) p fuel (nI M) (nI k) s = some (nI M', s) ∧ ∀ j, M'.testBit j = (decide (j < c) && M0.testBit j && inn (cB s (8 + 8 * F + j)) (cB s p)) := by
  intro d
  induction d with
  | zero =>
    intro fuel k M h hf hM hb
    obtain ⟨l, rfl⟩ : ∃ l, fuel = l + 1 := ⟨fuel - 1, by omega⟩
    have : k = c := by omega
    subst this
    rw [fX0_placesWithin_L5, hI, if_pos (nI_le (by omega) (by omega))]
    exact ⟨M, hM, rfl, hb⟩
  | succ d ih =>
    intro fuel k M h hf hM hb
    obtain ⟨l, rfl⟩ : ∃ l, fuel = l + 1 := ⟨fuel - 1, by omega⟩
    have k7 : k < 7 := by omega
    have or := or7 M hM k k7
    have keep : (M0.testBit k && inn (cB s (8 + 8 * F + k)) (cB s p)) = false → ∀ j, M.testBit j = (decide (j < k + 1) && M0.testBit j && inn (cB s (8 + 8 * F + j)) (cB s p)) := fun z j => by
      rw [hb j]
      by_cases e : j = k
      · subst e
        rw [decide_eq_false (Nat.lt_irrefl _), decide_eq_true (Nat.lt_succ_self _), Bool.false_and, Bool.false_and, Bool.true_and, z]
      · rw [show decide (j < k) = decide (j < k + 1) from decide_eq_decide.mpr (by omega)]
    rw [fX0_placesWithin_L5, hI, if_neg (nI_ge (by omega) (by omega)), if_boolf (bt7 M0 hM0 k k7), if_pos (vin7 k7), cl7 k7, p_holdsAll, if_bi, nI_1, or.1]
    cases a : M0.testBit k
    · exact ih l (k + 1) M (by omega) (by omega) hM (keep (by rw [a]; rfl))
    · rw [if_pos rfl]
      cases b : inn (cB s (8 + 8 * F + k)) (cB s p)
      · exact ih l (k + 1) M (by omega) (by omega) hM (keep (by rw [b]; exact Bool.and_false _))
      · rw [if_pos rfl]
        refine ih l (k + 1) (M ||| 2 ^ k) (by omega) (by omega) or.2 (fun j => ?_)
        rw [Nat.testBit_or, Nat.testBit_two_pow, hb j]
        by_cases e : k = j
        · subst e
          rw [decide_eq_true rfl, decide_eq_true (Nat.lt_succ_self _), a, b, Bool.or_true]
          rfl
        · rw [decide_eq_false e, Bool.or_false, show decide (j < k) = decide (j < k + 1) from decide_eq_decide.mpr (by omega)]
theorem p_pw {F c M0 : Nat} (p : Nat) {s : cS} (hc : c ≤ 7) (hI : sI s F = nI c) (hM0 : M0 < 128) : ∃ M, M < 128 ∧ fX0_placesWithin F (nI M0) p s = some (nI M, s) ∧ ∀ j, M.testBit j = (decide (j < c) && M0.testBit j && inn (cB s (8 + 8 * F + j)) (cB s p)) :=
  p_pw_L hc hI hM0 c 1100 0 0 (by omega) (by omega) (by decide) (fun j => by rw [Nat.zero_testBit, decide_eq_false (Nat.not_lt_zero j)]; rfl)
/-- the union of those that are told -/
def un (f : Nat → BS) (P : Nat → Bool) : Nat → BS
  | 0 => fun _ => false
  | k + 1 => if P k then jn 0 (un f P k) (f k) else un f P k
theorem un_cong {f g : Nat → BS} {P Q : Nat → Bool} : ∀ {c : Nat}, (∀ j, j < c → P j = Q j) → (∀ j, j < c → f j = g j) → un f P c = un g Q c
  | 0, _, _ => rfl
  | c + 1, h1, h2 => by rw [un, un, h1 c (by omega), h2 c (by omega), un_cong (fun j hj => h1 j (by omega)) (fun j hj => h2 j (by omega))]
theorem un_wf {f : Nat → BS} (hf : ∀ j, wfB (f j)) (P : Nat → Bool) : ∀ c, wfB (un f P c)
  | 0 => wf_0
  | c + 1 => by
    rw [un]
    split
    · exact jn_wf (un_wf hf P c) (hf c)
    · exact un_wf hf P c
theorem p_un_L {F c M i : Nat} {s0 : cS} (hF : F < 2) (hc : c ≤ 7) (hM : M < 128) (k0 : cS → Option (Int32 × cS)) (x1 : Int32) : ∀ (d fuel k : Nat) (s : cS), k + d = c → d < fuel → sI s0 F = nI c → s.2.2 = s0.2.2 → cB s = va_up (cB s0) (15 + 8 * F) (un (fun j => cB s0 (8 + 8 * F + j)) (fun j => M.testBit j) k) → ∃ s', fX0_isUnionOf_L9 F x1 (nI M) k0 fuel (nI k) s = k0 s' ∧ s'.2.2 = s0.2.2 ∧ cB s' = va_up (cB s0) (15 + 8 * F) (un (fun j => cB s0 (8 + 8 * F + j)) (fun j => M.testBit j) c) := by
  intro d
  induction d with
  | zero =>
    intro fuel k s h hf hI h2 hB
    obtain ⟨l, rfl⟩ : ∃ l, fuel = l + 1 := ⟨fuel - 1, by omega⟩
    have : k = c := by omega
    subst this
    rw [fX0_isUnionOf_L9, sI_eq h2, hI, if_pos (nI_le (by omega) (by omega))]
    exact ⟨s, rfl, h2, hB⟩
  | succ d ih =>
    intro fuel k s h hf hI h2 hB
    obtain ⟨l, rfl⟩ : ∃ l, fuel = l + 1 := ⟨fuel - 1, by omega⟩
    have k7 : k < 7 := by omega
    rw [fX0_isUnionOf_L9, sI_eq h2, hI, if_neg (nI_ge (by omega) (by omega)), if_boolf (bt7 M hM k k7), if_pos (vin7 k7), cl7 k7, nI_1]
    cases a : M.testBit k
    · refine ih l (k + 1) s (by omega) (by omega) hI h2 ?_
      rw [hB, un, a]
      rfl
    · rw [if_pos rfl]
      obtain ⟨s1, e1, e2, e3⟩ := p_combine (15 + 8 * F) 0 (8 + 8 * F + k) s
      rw [e1]
      simp only [Option.bind_some]
      refine ih l (k + 1) s1 (by omega) (by omega) hI (e3.trans h2) ?_
      rw [e2, hB, zu_twice, zu_at, zu_ne _ (by omega), un, a]
      rfl
theorem p_un {F c M i : Nat} {s : cS} (hF : F < 2) (hc : c ≤ 7) (hM : M < 128) (hi : i < c) (hI : sI s F = nI c) : ∃ s', fX0_isUnionOf F (nI i) (nI M) s = some (bi (same (un (fun j => cB s (8 + 8 * F + j)) (fun j => M.testBit j) c) (cB s (8 + 8 * F + i))), s') ∧ s'.2.2 = s.2.2 ∧ cB s' = va_up (cB s) (15 + 8 * F) (un (fun j => cB s (8 + 8 * F + j)) (fun j => M.testBit j) c) := by
  unfold fX0_isUnionOf
  obtain ⟨s1, e1, e2, e3⟩ := p_empty (15 + 8 * F) s
  obtain ⟨s2, g1, g2, g3⟩ := p_un_L (s0 := s) (i := i) hF hc hM (fun s4 => if vin (nI i) 7 = true then (some ((fX2_sameAs (15 + 8 * F) (8 + 8 * F + (nI i).toNatClampNeg) s4, s4))) else none) (nI i) c 1100 0 s1 (by omega) (by omega) hI e3 (by rw [un]; exact e2)
  refine ⟨s2, ?_, g2, g3⟩
  have e : fX0_isUnionOf_L9 F (nI i) (nI M) (fun s4 => if vin (nI i) 7 = true then (some ((fX2_sameAs (15 + 8 * F) (8 + 8 * F + (nI i).toNatClampNeg) s4, s4))) else none) 1100 0 s1 = _ := g1
  have x1 : cB s2 (15 + 8 * F) = un (fun j => cB s (8 + 8 * F + j)) (fun j => M.testBit j) c := by rw [g3]; exact zu_at _ _ _
  have x2 : cB s2 (8 + 8 * F + i) = cB s (8 + 8 * F + i) := by rw [g3]; exact zu_ne _ (by omega) _
  rw [e1]
  simp only [Option.bind_some]
  rw [e]
  rw [if_pos (vin7 (show i < 7 by omega)), cl7 (show i < 7 by omega), p_sameAs, x1, x2]
/-- prime sets -/
noncomputable def pri (f : Nat → BS) (c i : Nat) : Bool := !same (un f (fun j => decide (j ≠ i) && inn (f j) (f i)) c) (f i)
theorem pri_cong {f g : Nat → BS} {c i : Nat} (h : ∀ j, j < c → f j = g j) (hi : i < c) : pri f c i = pri g c i := by
  unfold pri
  rw [h i hi, un_cong (fun j hj => by show (decide (j ≠ i) && inn (f j) (g i)) = (decide (j ≠ i) && inn (g j) (g i)); rw [h j hj]) h]
theorem p_primes_L {c : Nat} {s0 : cS} (hc : c ≤ 7) (W : Wf s0) (hI : sI s0 0 = nI c) : ∀ (d fuel k M : Nat) (s : cS), k + d = c → d < fuel → M < 128 → s.2.2 = s0.2.2 → (∀ n, n ≠ 15 → cB s n = cB s0 n) → Wf s → (∀ j, M.testBit j = (decide (j < k) && pri (fun j => cB s0 (8 + 8 * 0 + j)) c j)) → ∃ M' s', M' < 128 ∧ fX0_primePlaces_L4 0 fuel (nI M) (nI k) s = some (nI M', s') ∧ s'.2.2 = s0.2.2 ∧ (∀ n, n ≠ 15 → cB s' n = cB s0 n) ∧ Wf s' ∧ ∀ j, M'.testBit j = (decide (j < c) && pri (fun j => cB s0 (8 + 8 * 0 + j)) c j) := by
  intro d
  induction d with
  | zero =>
    intro fuel k M s h hf hM h2 hB W1 hb
    obtain ⟨l, rfl⟩ : ∃ l, fuel = l + 1 := ⟨fuel - 1, by omega⟩
    have : k = c := by omega
    subst this
    rw [fX0_primePlaces_L4, sI_eq h2, hI, if_pos (nI_le (by omega) (by omega))]
    exact ⟨M, s, hM, rfl, h2, hB, W1, hb⟩
  | succ d ih =>
    intro fuel k M s h hf hM h2 hB W1 hb
    obtain ⟨l, rfl⟩ : ∃ l, fuel = l + 1 := ⟨fuel - 1, by omega⟩
    have k7 : k < 7 := by omega
    have or := or7 M hM k k7
    have ot := oth7 c (by omega) k k7
    have hIs : sI s 0 = nI c := (sI_eq h2 0).trans hI
    have ea : fX0_allPlaces 0 s &&& ((1 <<< (nI k &&& 31)) ^^^ (-1)) = nI (oth c k) := by
      unfold fX0_allPlaces
      rw [hIs]
      exact ot.1
    obtain ⟨M1, q1, q2, q3⟩ := p_pw (8 + 8 * 0 + k) hc hIs ot.2.1
    obtain ⟨s1, r1, r2, r3⟩ := p_un (F := 0) (M := M1) (i := k) (by decide) hc q1 (by omega) hIs
    have W2 : Wf s1 := Wf_up W1 (un_wf (fun j => W1 _) _ _) r3
    have B2 : ∀ n, n ≠ 15 → cB s1 n = cB s0 n := fun n hn => by rw [r3, zu_ne _ hn]; exact hB n hn
    have ep : same (un (fun j => cB s (8 + 8 * 0 + j)) (fun j => M1.testBit j) c) (cB s (8 + 8 * 0 + k)) = !pri (fun j => cB s0 (8 + 8 * 0 + j)) c k := by
      unfold pri
      rw [Bool.not_not, hB _ (by omega)]
      refine congrArg (fun z => same z (cB s0 (8 + 8 * 0 + k))) (un_cong (fun j hj => ?_) (fun j hj => hB _ (by omega)))
      rw [q3 j, ot.2.2 j (by omega), decide_eq_true hj, Bool.true_and, Bool.true_and, hB _ (by omega), hB _ (by omega)]
    rw [fX0_primePlaces_L4, hIs, if_neg (nI_ge (by omega) (by omega)), if_pos (vin7 k7), cl7 k7, ea, q2]
    simp only [Option.bind_some, r1, ep, if_bi, nI_1, or.1]
    cases a : pri (fun j => cB s0 (8 + 8 * 0 + j)) c k
    · simp only [Bool.not_false, if_true]
      refine ih l (k + 1) M s1 (by omega) (by omega) hM (r2.trans h2) B2 W2 (fun j => ?_)
      rw [hb j]
      by_cases e : j = k
      · subst e
        rw [a, Bool.and_false, Bool.and_false]
      · rw [show decide (j < k) = decide (j < k + 1) from decide_eq_decide.mpr (by omega)]
    · simp only [Bool.not_true, Bool.false_eq_true, if_false]
      refine ih l (k + 1) (M ||| 2 ^ k) s1 (by omega) (by omega) or.2 (r2.trans h2) B2 W2 (fun j => ?_)
      rw [Nat.testBit_or, Nat.testBit_two_pow, hb j]
      by_cases e : k = j
      · subst e
        rw [decide_eq_true rfl, decide_eq_true (Nat.lt_succ_self _), a, Bool.or_true]
        rfl
      · rw [decide_eq_false e, Bool.or_false, show decide (j < k) = decide (j < k + 1) from decide_eq_decide.mpr (by omega)]
theorem p_primes {c : Nat} {s : cS} (hc : c ≤ 7) (W : Wf s) (hI : sI s 0 = nI c) : ∃ M s', M < 128 ∧ fX0_primePlaces 0 s = some (nI M, s') ∧ s'.2.2 = s.2.2 ∧ (∀ n, n ≠ 15 → cB s' n = cB s n) ∧ Wf s' ∧ ∀ j, M.testBit j = (decide (j < c) && pri (fun j => cB s (8 + 8 * 0 + j)) c j) :=
  p_primes_L hc W hI c 1100 0 0 s (by omega) (by omega) (by decide) rfl (fun _ _ => rfl) W (fun j => by rw [Nat.zero_testBit, decide_eq_false (Nat.not_lt_zero j)]; rfl)
theorem bc7_1 : ∀ M, M < 128 → (nI M - (((nI M).toUInt32 >>> ((1 : Int32).toUInt32 &&& Int32.toUInt32 31)).toInt32 &&& 1431655765) = nI (M - (M / 2 &&& 85))) ∧ M - (M / 2 &&& 85) < 128 := by decide +kernel
theorem bc7_2 : ∀ z, z < 128 → ((nI z &&& 858993459) + (((nI z).toUInt32 >>> ((2 : Int32).toUInt32 &&& Int32.toUInt32 31)).toInt32 &&& 858993459) = nI ((z &&& 51) + (z / 4 &&& 51))) ∧ (z &&& 51) + (z / 4 &&& 51) < 128 := by decide +kernel
theorem bc7_3 : ∀ w, w < 128 → ((nI w + ((nI w).toUInt32 >>> ((4 : Int32).toUInt32 &&& Int32.toUInt32 31)).toInt32) &&& 252645135) = nI ((w + w / 16) &&& 15) ∧ (w + w / 16) &&& 15 < 16 := by decide +kernel
theorem bc7_4 : ∀ v, v < 16 → nI v + ((nI v).toUInt32 >>> ((8 : Int32).toUInt32 &&& Int32.toUInt32 31)).toInt32 = nI v ∧ nI v + ((nI v).toUInt32 >>> ((16 : Int32).toUInt32 &&& Int32.toUInt32 31)).toInt32 = nI v ∧ nI v &&& 63 = nI v := by decide +kernel
theorem bc7_n : ∀ M, M < 128 → ((((M - (M / 2 &&& 85)) &&& 51) + ((M - (M / 2 &&& 85)) / 4 &&& 51)) + (((M - (M / 2 &&& 85)) &&& 51) + ((M - (M / 2 &&& 85)) / 4 &&& 51)) / 16) &&& 15 = fb_ct (fun j => M.testBit j) 7 := by decide +kernel
theorem bc7 (s : cS) (M : Nat) (h : M < 128) : fJ6_bitCount_0f7a4 (nI M) s = nI (fb_ct (fun j => M.testBit j) 7) := by
  unfold fJ6_bitCount_0f7a4
  have q1 := bc7_1 M h
  have q2 := bc7_2 _ q1.2
  have q3 := bc7_3 _ q2.2
  have q4 := bc7_4 _ q3.2
  rw [q1.1, q2.1, q3.1, q4.1, q4.2.1, q4.2.2, bc7_n M h]
