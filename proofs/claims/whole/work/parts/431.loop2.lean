/-! ===== the law's body and loop over related states ===== -/
theorem body_ok {L : Nat} {ys : Nat → Int32} {i : Int32} {s : lS} (hR : Rel s.1 s.2.1) (h0 : vin i L = true) (h1 : vin (i + 1) L = true) (h2 : vin (i + 2) L = true) (h3 : vin (i + 3) L = true) (h4 : vin (i + 4) L = true) : ∃ s2, fL_body L ys i s = some s2 ∧ Rel s2.1 s2.2.1 := by
  unfold fL_body
  rw [if_pos h0]
  by_cases c0 : (ys i.toNatClampNeg &&& 63) = 0
  · rw [if_pos c0]
    exact k_c0 hR h1 h2
  rw [if_neg c0]
  by_cases c1 : (ys i.toNatClampNeg &&& 63) = 1
  · rw [if_pos c1]
    exact k_c1 hR h1 h2
  rw [if_neg c1]
  by_cases c2 : (ys i.toNatClampNeg &&& 63) = 2
  · rw [if_pos c2]
    exact k_c2 hR h1 h2
  rw [if_neg c2]
  by_cases c3 : (ys i.toNatClampNeg &&& 63) = 3
  · rw [if_pos c3]
    exact k_c3 hR h1
  rw [if_neg c3]
  by_cases c4 : (ys i.toNatClampNeg &&& 63) = 4
  · rw [if_pos c4]
    exact k_c4 hR h1
  rw [if_neg c4]
  by_cases c5 : (ys i.toNatClampNeg &&& 63) = 5
  · rw [if_pos c5]
    exact k_c5 hR h1
  rw [if_neg c5]
  by_cases c6 : (ys i.toNatClampNeg &&& 63) = 6
  · rw [if_pos c6]
    exact k_c6 hR h1 h2 h3 h4
  rw [if_neg c6]
  by_cases c7 : (ys i.toNatClampNeg &&& 63) = 7
  · rw [if_pos c7]
    exact k_c7 hR h1 h2
  rw [if_neg c7]
  by_cases c8 : (ys i.toNatClampNeg &&& 63) = 8
  · rw [if_pos c8]
    exact k_c8 hR h1
  rw [if_neg c8]
  by_cases c9 : (ys i.toNatClampNeg &&& 63) = 9
  · rw [if_pos c9]
    exact k_c9 hR h1
  rw [if_neg c9]
  by_cases c10 : (ys i.toNatClampNeg &&& 63) = 10
  · rw [if_pos c10]
    exact k_c10 hR h1 h2
  rw [if_neg c10]
  by_cases c11 : (ys i.toNatClampNeg &&& 63) = 11
  · rw [if_pos c11]
    exact k_c11 hR h1 h2
  rw [if_neg c11]
  by_cases c12 : (ys i.toNatClampNeg &&& 63) = 12
  · rw [if_pos c12]
    exact k_c12 hR h1 h2
  rw [if_neg c12]
  by_cases c13 : (ys i.toNatClampNeg &&& 63) = 13
  · rw [if_pos c13]
    exact k_c13 hR h1 h2
  rw [if_neg c13]
  by_cases c14 : (ys i.toNatClampNeg &&& 63) = 14
  · rw [if_pos c14]
    exact k_c14 hR h1 h2 h3
  rw [if_neg c14]
  by_cases c15 : (ys i.toNatClampNeg &&& 63) = 15
  · rw [if_pos c15]
    exact k_c15 hR h1 h2
  rw [if_neg c15]
  by_cases c16 : (ys i.toNatClampNeg &&& 63) = 16
  · rw [if_pos c16]
    exact k_c16 hR h1 h2
  rw [if_neg c16]
  by_cases c17 : (ys i.toNatClampNeg &&& 63) = 17
  · rw [if_pos c17]
    exact k_c17 hR h1 h2
  rw [if_neg c17]
  by_cases c18 : (ys i.toNatClampNeg &&& 63) = 18
  · rw [if_pos c18]
    exact k_c18 hR h1
  rw [if_neg c18]
  by_cases c19 : (ys i.toNatClampNeg &&& 63) = 19
  · rw [if_pos c19]
    exact k_c19 hR h1 h2
  rw [if_neg c19]
  by_cases c20 : (ys i.toNatClampNeg &&& 63) = 20
  · rw [if_pos c20]
    exact k_c20 hR h1
  rw [if_neg c20]
  by_cases c21 : (ys i.toNatClampNeg &&& 63) = 21
  · rw [if_pos c21]
    exact k_c21 hR h1
  rw [if_neg c21]
  by_cases c22 : (ys i.toNatClampNeg &&& 63) = 22
  · rw [if_pos c22]
    exact k_c22 hR h1
  rw [if_neg c22]
  by_cases c23 : (ys i.toNatClampNeg &&& 63) = 23
  · rw [if_pos c23]
    exact k_c23 hR
  rw [if_neg c23]
  by_cases c24 : (ys i.toNatClampNeg &&& 63) = 24
  · rw [if_pos c24]
    exact k_c24 hR
  rw [if_neg c24]
  by_cases c25 : (ys i.toNatClampNeg &&& 63) = 25
  · rw [if_pos c25]
    exact k_c25 hR
  rw [if_neg c25]
  by_cases c26 : (ys i.toNatClampNeg &&& 63) = 26
  · rw [if_pos c26]
    exact k_c26 hR h1
  rw [if_neg c26]
  by_cases c27 : (ys i.toNatClampNeg &&& 63) = 27
  · rw [if_pos c27]
    exact k_c27 hR h1 h2
  rw [if_neg c27]
  by_cases c28 : (ys i.toNatClampNeg &&& 63) = 28
  · rw [if_pos c28]
    exact k_c28 hR h1
  rw [if_neg c28]
  by_cases c29 : (ys i.toNatClampNeg &&& 63) = 29
  · rw [if_pos c29]
    exact k_c29 hR h1
  rw [if_neg c29]
  by_cases c30 : (ys i.toNatClampNeg &&& 63) = 30
  · rw [if_pos c30]
    exact k_c30 hR
  rw [if_neg c30]
  by_cases c31 : (ys i.toNatClampNeg &&& 63) = 31
  · rw [if_pos c31]
    exact k_c31 hR
  rw [if_neg c31]
  by_cases c32 : (ys i.toNatClampNeg &&& 63) = 32
  · rw [if_pos c32]
    exact k_c32 hR h1
  rw [if_neg c32]
  by_cases c33 : (ys i.toNatClampNeg &&& 63) = 33
  · rw [if_pos c33]
    exact k_c33 hR h1 h2
  rw [if_neg c33]
  by_cases c34 : (ys i.toNatClampNeg &&& 63) = 34
  · rw [if_pos c34]
    exact k_c34 hR
  rw [if_neg c34]
  by_cases c35 : (ys i.toNatClampNeg &&& 63) = 35
  · rw [if_pos c35]
    exact k_c35 hR
  rw [if_neg c35]
  by_cases c36 : (ys i.toNatClampNeg &&& 63) = 36
  · rw [if_pos c36]
    exact k_c36 hR h1
  rw [if_neg c36]
  by_cases c37 : (ys i.toNatClampNeg &&& 63) = 37
  · rw [if_pos c37]
    exact k_c37 hR
  rw [if_neg c37]
  by_cases c38 : (ys i.toNatClampNeg &&& 63) = 38
  · rw [if_pos c38]
    exact k_c38 hR
  rw [if_neg c38]
  by_cases c39 : (ys i.toNatClampNeg &&& 63) = 39
  · rw [if_pos c39]
    exact k_c39 hR
  rw [if_neg c39]
  by_cases c40 : (ys i.toNatClampNeg &&& 63) = 40
  · rw [if_pos c40]
    exact k_c40 hR h1 h2
  rw [if_neg c40]
  by_cases c41 : (ys i.toNatClampNeg &&& 63) = 41
  · rw [if_pos c41]
    exact k_c41 hR h1 h2 h3
  rw [if_neg c41]
  by_cases c42 : (ys i.toNatClampNeg &&& 63) = 42
  · rw [if_pos c42]
    exact k_c42 hR h1 h2
  rw [if_neg c42]
  by_cases c43 : (ys i.toNatClampNeg &&& 63) = 43
  · rw [if_pos c43]
    exact k_c43 hR h1 h2
  rw [if_neg c43]
  by_cases c44 : (ys i.toNatClampNeg &&& 63) = 44
  · rw [if_pos c44]
    exact k_c44 hR h1 h2 h3
  rw [if_neg c44]
  by_cases c45 : (ys i.toNatClampNeg &&& 63) = 45
  · rw [if_pos c45]
    exact k_c45 hR
  rw [if_neg c45]
  by_cases c46 : (ys i.toNatClampNeg &&& 63) = 46
  · rw [if_pos c46]
    exact k_c46 hR
  rw [if_neg c46]
  by_cases c47 : (ys i.toNatClampNeg &&& 63) = 47
  · rw [if_pos c47]
    exact k_c47 hR
  rw [if_neg c47]
  exact ⟨s, rfl, hR⟩
theorem vinA {k j L : Nat} (h : k + j < L) (hL : L < 2 ^ 31) : vin (nI k + nI j) L = true := by
  rw [nI_add]
  exact vinI h hL
theorem end5 {k L : Nat} (hk : k < 2 ^ 30) (hL : L < 2 ^ 30) : nI L - 5 < nI k ↔ L < k + 5 := by
  rw [Int32.lt_iff_toInt_lt]
  have := pk_sub_toInt (a := L) (b := 5) hL (by decide)
  rw [show nI 5 = (5 : Int32) from rfl] at this
  rw [this, nI_toInt (by omega)]
  omega
theorem loop_ok {L : Nat} (hL : L < 2 ^ 20) (ys : Nat → Int32) : ∀ (fuel k : Nat) (s : lS), L < k + 5 * fuel → 0 < fuel → k < 2 ^ 25 → Rel s.1 s.2.1 → ∃ s2, fL_loop L ys fuel (nI k) s = some s2 ∧ Rel s2.1 s2.2.1 := by
  intro fuel
  induction fuel with
  | zero => intro k s h h0; omega
  | succ fuel ih =>
    intro k s h h0 hk hR
    rw [fL_loop]
    by_cases c : L < k + 5
    · rw [if_pos (show Int32.ofNat L - 5 < nI k from (end5 (by omega) (by omega)).mpr c)]
      exact ⟨s, rfl, hR⟩
    · rw [if_neg (show ¬ Int32.ofNat L - 5 < nI k from fun z => c ((end5 (by omega) (by omega)).mp z))]
      obtain ⟨s1, e1, e2⟩ := body_ok (L := L) (ys := ys) (i := nI k) hR (vinI (by omega) (by omega)) (vinA (j := 1) (by omega) (by omega)) (vinA (j := 2) (by omega) (by omega)) (vinA (j := 3) (by omega) (by omega)) (vinA (j := 4) (by omega) (by omega))
      rw [e1]
      simp only [Option.bind_some]
      rw [show nI k + 5 = nI (k + 5) from nI_add k 5]
      exact ih (k + 5) s1 (by omega) (by omega) (by omega) e2
/-! ===== the start ===== -/
theorem rel_zero : Rel ((fun _ => 0, fun _ => 0, fun k => if k = 10 then -1 else 0, fun _ => 0) : cS) ((fun _ _ => 0, fun _ => 0, fun _ => 0) : mS) := by
  have e1 : ∀ n, cB ((fun _ => 0, fun _ => 0, fun k => if k = 10 then -1 else 0, fun _ => 0) : cS) n = fun _ => false := fun n => pB_0
  have e2 : ∀ r, mB ((fun _ _ => 0, fun _ => 0, fun _ => 0) : mS) r = fun _ => false := fun r => funext fun k => by
    show (decide (k < 102) && decide (((0 : Int32)) ≠ 0)) = false
    rw [decide_eq_false (p := ((0 : Int32)) ≠ 0) (fun h => h rfl), Bool.and_false]
  refine ⟨fun n k _ => by rw [e1], fun _ _ => Or.inl rfl, fun i _ => by rw [e1, e2], ⟨0, by omega, ?_, ?_, fun j h => absurd h (Nat.not_lt_zero j)⟩, ⟨0, by omega, ?_, ?_, fun k h => absurd h (Nat.not_lt_zero k)⟩⟩
  · rw [nI_0]; rfl
  · rw [nI_0]; rfl
  · rw [nI_0]; rfl
  · rw [nI_0]; rfl
theorem law_ok {L : Nat} (hL : L ≤ 2560) (ys : Nat → Int32) : ∃ o : lS, fL_loop L ys 1100 0 (((fun _ => 0, fun _ => 0, fun k => if k = 10 then -1 else 0, fun _ => 0) : cS), ((fun _ _ => 0, fun _ => 0, fun _ => 0) : mS), 0) = some o := by
  obtain ⟨o, h, -⟩ := loop_ok (L := L) (by omega) ys 1100 0 (((fun _ => 0, fun _ => 0, fun k => if k = 10 then -1 else 0, fun _ => 0) : cS), ((fun _ _ => 0, fun _ => 0, fun _ => 0) : mS), 0) (by omega) (by omega) (by omega) rel_zero
  rw [nI_0] at h
  exact ⟨o, h⟩
