/-! ===== isChain, primes ===== -/
noncomputable def nst (f : Nat → BS) (i j : Nat) : Bool := inn (f i) (f j) || inn (f j) (f i)
theorem nst_comm (f : Nat → BS) (i j : Nat) : nst f i j = nst f j i := Bool.or_comm _ _
theorem p_chain_L {F c i : Nat} {s : cS} (hc : c ≤ 7) (hI : sI s F = nI c) (hi : i < c) (k0 : cS → Option (Int32 × cS)) : ∀ (d fuel j : Nat), j + d = c → d < fuel → ((∀ q, j ≤ q → q < c → nst (fun j => cB s (8 + 8 * F + j)) i q = true) ∧ fX0_allNested_L14 F (nI i) k0 fuel (nI j) s = k0 s) ∨ ((∃ q, j ≤ q ∧ q < c ∧ nst (fun j => cB s (8 + 8 * F + j)) i q = false) ∧ fX0_allNested_L14 F (nI i) k0 fuel (nI j) s = some (0, s)) := by
  intro d
  induction d with
  | zero =>
    intro fuel j h hf
    obtain ⟨l, rfl⟩ : ∃ l, fuel = l + 1 := ⟨fuel - 1, by omega⟩
    left
    rw [fX0_allNested_L14, hI, if_pos (nI_le (by omega) (by omega))]
    exact ⟨fun q h1 h2 => by omega, rfl⟩
  | succ d ih =>
    intro fuel j h hf
    obtain ⟨l, rfl⟩ : ∃ l, fuel = l + 1 := ⟨fuel - 1, by omega⟩
    have i7 : i < 7 := by omega
    have j7 : j < 7 := by omega
    have e : nst (fun j => cB s (8 + 8 * F + j)) i j = (inn (cB s (8 + 8 * F + i)) (cB s (8 + 8 * F + j)) || inn (cB s (8 + 8 * F + j)) (cB s (8 + 8 * F + i))) := rfl
    rw [fX0_allNested_L14, hI, if_neg (nI_ge (by omega) (by omega))]
    simp only [vin7 i7, vin7 j7, cl7 i7, cl7 j7, if_true, p_holdsAll, if_bi, nI_1]
    have st : nst (fun j => cB s (8 + 8 * F + j)) i j = true → ((∀ q, j ≤ q → q < c → nst (fun j => cB s (8 + 8 * F + j)) i q = true) ∧ fX0_allNested_L14 F (nI i) k0 l (nI (j + 1)) s = k0 s) ∨ ((∃ q, j ≤ q ∧ q < c ∧ nst (fun j => cB s (8 + 8 * F + j)) i q = false) ∧ fX0_allNested_L14 F (nI i) k0 l (nI (j + 1)) s = some (0, s)) := fun hn => by
      rcases ih l (j + 1) (by omega) (by omega) with ⟨g1, g2⟩ | ⟨⟨q, g1, g2, g3⟩, g4⟩
      · exact Or.inl ⟨fun q h1 h2 => if z : q = j then z ▸ hn else g1 q (by omega) h2, g2⟩
      · exact Or.inr ⟨⟨q, by omega, g2, g3⟩, g4⟩
    cases a : inn (cB s (8 + 8 * F + j)) (cB s (8 + 8 * F + i))
    · cases b : inn (cB s (8 + 8 * F + i)) (cB s (8 + 8 * F + j))
      · right
        exact ⟨⟨j, Nat.le_refl _, by omega, by rw [e, a, b]; rfl⟩, rfl⟩
      · exact st (by rw [e, a, b]; rfl)
    · exact st (by rw [e, a]; exact Bool.or_true _)
theorem p_chain_L2 {F c : Nat} {s : cS} (hc : c ≤ 7) (hI : sI s F = nI c) : ∀ (d fuel i : Nat), i + d = c → d < fuel → ((∀ p q, i ≤ p → p < q → q < c → nst (fun j => cB s (8 + 8 * F + j)) p q = true) ∧ fX0_allNested_L2 F fuel (nI i) s = some (1, s)) ∨ ((∃ p q, i ≤ p ∧ p < q ∧ q < c ∧ nst (fun j => cB s (8 + 8 * F + j)) p q = false) ∧ fX0_allNested_L2 F fuel (nI i) s = some (0, s)) := by
  intro d
  induction d with
  | zero =>
    intro fuel i h hf
    obtain ⟨l, rfl⟩ : ∃ l, fuel = l + 1 := ⟨fuel - 1, by omega⟩
    left
    rw [fX0_allNested_L2, hI, if_pos (nI_le (by omega) (by omega))]
    exact ⟨fun p q h1 h2 h3 => by omega, rfl⟩
  | succ d ih =>
    intro fuel i h hf
    obtain ⟨l, rfl⟩ : ∃ l, fuel = l + 1 := ⟨fuel - 1, by omega⟩
    rw [fX0_allNested_L2, hI, if_neg (nI_ge (by omega) (by omega)), nI_1]
    rcases p_chain_L hc hI (show i < c by omega) (fun s7 => fX0_allNested_L2 F l (nI (i + 1)) s7) (c - (i + 1)) 1100 (i + 1) (by omega) (by omega) with ⟨g1, g2⟩ | ⟨⟨q, g1, g2, g3⟩, g4⟩
    · rw [g2]
      rcases ih l (i + 1) (by omega) (by omega) with ⟨k1, k2⟩ | ⟨⟨p, q, k1, k2, k3, k4⟩, k5⟩
      · exact Or.inl ⟨fun p q h1 h2 h3 => if z : p = i then z ▸ g1 q (by omega) h3 else k1 p q (by omega) h2 h3, k2⟩
      · exact Or.inr ⟨⟨p, q, by omega, k2, k3, k4⟩, k5⟩
    · exact Or.inr ⟨⟨i, q, Nat.le_refl _, by omega, g2, g3⟩, g4⟩
theorem m_chain_L {c i : Nat} {m : mS} (hc : c ≤ 7) (hi : i < c) (k0 : mS → Option (Int32 × mS)) : ∀ (d fuel j : Nat), j + d = i → d < fuel → ((∀ q, j ≤ q → q < i → nst (fun j => mB m (9 + 7 * 0 + j)) i q = true) ∧ fX8_isChain_L17 (nI i) k0 fuel (nI j) m = k0 m) ∨ ((∃ q, j ≤ q ∧ q < i ∧ nst (fun j => mB m (9 + 7 * 0 + j)) i q = false) ∧ fX8_isChain_L17 (nI i) k0 fuel (nI j) m = some (0, m)) := by
  intro d
  induction d with
  | zero =>
    intro fuel j h hf
    obtain ⟨l, rfl⟩ : ∃ l, fuel = l + 1 := ⟨fuel - 1, by omega⟩
    left
    rw [fX8_isChain_L17, if_pos (nI_le (by omega) (by omega))]
    exact ⟨fun q h1 h2 => by omega, rfl⟩
  | succ d ih =>
    intro fuel j h hf
    obtain ⟨l, rfl⟩ : ∃ l, fuel = l + 1 := ⟨fuel - 1, by omega⟩
    have i7 : i < 7 := by omega
    have j7 : j < 7 := by omega
    have e : nst (fun j => mB m (9 + 7 * 0 + j)) i j = (inn (mB m (9 + 7 * 0 + i)) (mB m (9 + 7 * 0 + j)) || inn (mB m (9 + 7 * 0 + j)) (mB m (9 + 7 * 0 + i))) := rfl
    rw [fX8_isChain_L17, if_neg (nI_ge (by omega) (by omega))]
    simp only [vin7 i7, vin7 j7, cl7 i7, cl7 j7, if_true, m_lies, Option.bind_some, if_bi, nI_1]
    have st : nst (fun j => mB m (9 + 7 * 0 + j)) i j = true → ((∀ q, j ≤ q → q < i → nst (fun j => mB m (9 + 7 * 0 + j)) i q = true) ∧ fX8_isChain_L17 (nI i) k0 l (nI (j + 1)) m = k0 m) ∨ ((∃ q, j ≤ q ∧ q < i ∧ nst (fun j => mB m (9 + 7 * 0 + j)) i q = false) ∧ fX8_isChain_L17 (nI i) k0 l (nI (j + 1)) m = some (0, m)) := fun hn => by
      rcases ih l (j + 1) (by omega) (by omega) with ⟨g1, g2⟩ | ⟨⟨q, g1, g2, g3⟩, g4⟩
      · exact Or.inl ⟨fun q h1 h2 => if z : q = j then z ▸ hn else g1 q (by omega) h2, g2⟩
      · exact Or.inr ⟨⟨q, by omega, g2, g3⟩, g4⟩
    cases a : inn (mB m (9 + 7 * 0 + i)) (mB m (9 + 7 * 0 + j))
    · cases b : inn (mB m (9 + 7 * 0 + j)) (mB m (9 + 7 * 0 + i))
      · right
        exact ⟨⟨j, Nat.le_refl _, by omega, by rw [e, a, b]; rfl⟩, rfl⟩
      · exact st (by rw [e, a, b]; rfl)
    · exact st (by rw [e, a]; rfl)
theorem m_chain_L2 {c : Nat} {m : mS} (hc : c ≤ 7) (hI : mI m 1 = nI c) : ∀ (d fuel i : Nat), i + d = c → d < fuel → ((∀ p q, i ≤ p → q < p → p < c → nst (fun j => mB m (9 + 7 * 0 + j)) p q = true) ∧ fX8_isChain_L7 fuel (nI i) m = some (1, m)) ∨ ((∃ p q, i ≤ p ∧ q < p ∧ p < c ∧ nst (fun j => mB m (9 + 7 * 0 + j)) p q = false) ∧ fX8_isChain_L7 fuel (nI i) m = some (0, m)) := by
  intro d
  induction d with
  | zero =>
    intro fuel i h hf
    obtain ⟨l, rfl⟩ : ∃ l, fuel = l + 1 := ⟨fuel - 1, by omega⟩
    left
    rw [fX8_isChain_L7, hI, if_pos (nI_le (by omega) (by omega))]
    exact ⟨fun p q h1 h2 h3 => by omega, rfl⟩
  | succ d ih =>
    intro fuel i h hf
    obtain ⟨l, rfl⟩ : ∃ l, fuel = l + 1 := ⟨fuel - 1, by omega⟩
    rw [fX8_isChain_L7, hI, if_neg (nI_ge (by omega) (by omega)), nI_1]
    rcases m_chain_L (m := m) hc (show i < c by omega) (fun s7 => fX8_isChain_L7 l (nI (i + 1)) s7) i 1100 0 (by omega) (by omega) with ⟨g1, g2⟩ | ⟨⟨q, g1, g2, g3⟩, g4⟩
    · rw [show fX8_isChain_L17 (nI i) (fun s7 => fX8_isChain_L7 l (nI (i + 1)) s7) 1100 0 m = _ from g2]
      rcases ih l (i + 1) (by omega) (by omega) with ⟨k1, k2⟩ | ⟨⟨p, q, k1, k2, k3, k4⟩, k5⟩
      · exact Or.inl ⟨fun p q h1 h2 h3 => if z : p = i then (by subst z; exact g1 q (Nat.zero_le _) h2) else k1 p q (by omega) h2 h3, k2⟩
      · exact Or.inr ⟨⟨p, q, by omega, k2, k3, k4⟩, k5⟩
    · exact Or.inr ⟨⟨i, q, Nat.le_refl _, g2, by omega, g3⟩, g4⟩
theorem g_isChain {a : cS} {m : mS} (h : Rel a m) : Meet0 (fX7_isChain a) (fX8_isChain m) := by
  obtain ⟨c, hc, f1, f2, f3⟩ := h.2.2.2.1
  have fe := fam_eq f3
  have ne : ∀ p q, p < c → q < c → nst (fun j => cB a (8 + 8 * 0 + j)) p q = nst (fun j => mB m (9 + 7 * 0 + j)) p q := fun p q hp hq => by
    unfold nst
    show (inn (cB a (8 + 8 * 0 + p)) (cB a (8 + 8 * 0 + q)) || inn (cB a (8 + 8 * 0 + q)) (cB a (8 + 8 * 0 + p))) = _
    rw [fe p hp, fe q hq]
  have A := p_chain_L2 (F := 0) hc f1 c 1100 0 (by omega) (by omega)
  have B := m_chain_L2 (m := vI m 0 0) hc f2 c 1100 0 (by omega) (by omega)
  unfold fX7_isChain fX8_isChain fX0_allNested
  rcases A with ⟨a1, a2⟩ | ⟨⟨p, q, a1, a2, a3, a4⟩, a5⟩
  · rcases B with ⟨b1, b2⟩ | ⟨⟨p, q, b1, b2, b3, b4⟩, b5⟩
    · rw [show fX0_allNested_L2 0 1100 0 a = _ from a2]
      exact ⟨1, a, vI m 0 0, rfl, b2, Rel_v0 h 0⟩
    · have b4 : nst (fun j => mB m (9 + 7 * 0 + j)) p q = false := b4
      have := a1 q p (Nat.zero_le _) b2 b3
      rw [ne q p (by omega) b3, nst_comm, b4] at this
      exact Bool.noConfusion this
  · rcases B with ⟨b1, b2⟩ | ⟨⟨p', q', b1, b2, b3, b4⟩, b5⟩
    · have : nst (fun j => mB m (9 + 7 * 0 + j)) q p = true := b1 q p (Nat.zero_le _) a2 a3
      rw [ne p q (by omega) a3, nst_comm, this] at a4
      exact Bool.noConfusion a4
    · rw [show fX0_allNested_L2 0 1100 0 a = _ from a5]
      exact ⟨0, a, vI m 0 0, rfl, b5, Rel_v0 h 0⟩
