/-! ===== the law's calls over the two states ===== -/
theorem Meets.two {e1 : Nat} {A : Option ((Nat × cS) ⊕ (Int32 × cS))} {B : Option (Int32 × mS)} (M : ∀ e2, Meets e1 e2 A B) : (∃ r a' m', A = some (.inr (r, a')) ∧ B = some (r, m') ∧ mI m' 0 = 0 ∧ Rel a' m') ∨ (∃ r a' m', A = some (.inl (e1, a')) ∧ B = some (r, m') ∧ mI m' 0 = 1 ∧ Rel a' m') := by
  rcases M (e1 + 1) with h | h | ⟨r, a', m', h1, _⟩
  · exact Or.inl h
  · exact Or.inr h
  · rcases M (e1 + 2) with ⟨r2, a2, m2, g1, _⟩ | ⟨r2, a2, m2, g1, _⟩ | ⟨r2, a2, m2, g1, _⟩
    · rw [h1] at g1
      exact nomatch g1
    · rw [h1] at g1
      have := congrArg Prod.fst (Sum.inl.inj (Option.some.inj g1))
      have : e1 + 1 = e1 := this
      omega
    · rw [h1] at g1
      have := congrArg Prod.fst (Sum.inl.inj (Option.some.inj g1))
      have : e1 + 1 = e1 + 2 := this
      omega
theorem lg0 (x : Int64) : lg_cmp x x = 0 := (lg_cmp_eq x x).mpr rfl
theorem lawB2 {e1 e2 : Nat} (hne : e2 ≠ e1) {m : mS} {o : Int64} {A : Option ((Nat × cS) ⊕ (Int32 × cS))} {B : mS → Option (Int32 × mS)} (M : Meets e1 e2 A (B m)) : ∃ s, (((A.bind (Sum.elim (fun e => if e.1 = e1 then (some (.inr (1, (e.2, m, o)))) else (if e.1 = e2 then (some (.inr (2, (e.2, m, o)))) else none)) (fun (r1, s1) => if r1 = 0 then (some (.inr (0, (s1, m, 0)))) else (some (.inr (0, (s1, m, 1)))))) : Option ((Nat × lS) ⊕ (Int32 × lS))).bind (Sum.elim (fun e => none) (fun (r3, s3) => (B s3.2.1).bind (fun (r6, s6) => if (fX8_thrown s6) = r3 then (if r3 = 0 then (if r6 = 0 then (if (lg_cmp s3.2.2 0) = 0 then (some (s3.1, s6, s3.2.2)) else (none)) else (if (lg_cmp s3.2.2 1) = 0 then (some (s3.1, s6, s3.2.2)) else (none))) else (some (s3.1, s6, s3.2.2))) else (none))))) : Option lS) = some s ∧ Rel s.1 s.2.1 := by
  rcases M with ⟨r, a1, m1, h1, h2, h3, h4⟩ | ⟨r, a1, m1, h1, h2, h3, h4⟩ | ⟨r, a1, m1, h1, h2, h3, h4⟩
  · refine ⟨(a1, m1, if r = 0 then 0 else 1), ?_, h4⟩
    rw [h1]
    simp only [Option.bind_some, Sum.elim_inr]
    by_cases c : r = 0
    · rw [if_pos c, if_pos c]
      simp only [Option.bind_some, Sum.elim_inr, h2, fX8_thrown, h3, if_true, if_pos c, lg0]
    · rw [if_neg c, if_neg c]
      simp only [Option.bind_some, Sum.elim_inr, h2, fX8_thrown, h3, if_true, if_neg c, lg0]
  · refine ⟨(a1, m1, o), ?_, h4⟩
    rw [h1]
    simp only [Option.bind_some, Sum.elim_inr, Sum.elim_inl, h2, fX8_thrown, h3, if_true, one_0]
  · refine ⟨(a1, m1, o), ?_, h4⟩
    rw [h1]
    simp only [Option.bind_some, Sum.elim_inr, Sum.elim_inl, h2, fX8_thrown, h3, if_true, if_neg hne, if_neg (show ¬ (2 : Int32) = 0 by decide)]
theorem lawB1 {e1 : Nat} {m : mS} {o : Int64} {A : Option ((Nat × cS) ⊕ (Int32 × cS))} {B : mS → Option (Int32 × mS)} (M : ∀ e2, Meets e1 e2 A (B m)) : ∃ s, (((A.bind (Sum.elim (fun e => if e.1 = e1 then (some (.inr (1, (e.2, m, o)))) else none) (fun (r1, s1) => if r1 = 0 then (some (.inr (0, (s1, m, 0)))) else (some (.inr (0, (s1, m, 1)))))) : Option ((Nat × lS) ⊕ (Int32 × lS))).bind (Sum.elim (fun e => none) (fun (r3, s3) => (B s3.2.1).bind (fun (r6, s6) => if (fX8_thrown s6) = r3 then (if r3 = 0 then (if r6 = 0 then (if (lg_cmp s3.2.2 0) = 0 then (some (s3.1, s6, s3.2.2)) else (none)) else (if (lg_cmp s3.2.2 1) = 0 then (some (s3.1, s6, s3.2.2)) else (none))) else (some (s3.1, s6, s3.2.2))) else (none))))) : Option lS) = some s ∧ Rel s.1 s.2.1 := by
  rcases Meets.two M with ⟨r, a1, m1, h1, h2, h3, h4⟩ | ⟨r, a1, m1, h1, h2, h3, h4⟩
  · refine ⟨(a1, m1, if r = 0 then 0 else 1), ?_, h4⟩
    rw [h1]
    simp only [Option.bind_some, Sum.elim_inr]
    by_cases c : r = 0
    · rw [if_pos c, if_pos c]
      simp only [Option.bind_some, Sum.elim_inr, h2, fX8_thrown, h3, if_true, if_pos c, lg0]
    · rw [if_neg c, if_neg c]
      simp only [Option.bind_some, Sum.elim_inr, h2, fX8_thrown, h3, if_true, if_neg c, lg0]
  · refine ⟨(a1, m1, o), ?_, h4⟩
    rw [h1]
    simp only [Option.bind_some, Sum.elim_inr, Sum.elim_inl, h2, fX8_thrown, h3, if_true, one_0]
theorem lawI2 {e1 e2 : Nat} (hne : e2 ≠ e1) {m : mS} {o : Int64} {A : Option ((Nat × cS) ⊕ (Int32 × cS))} {B : mS → Option (Int32 × mS)} (M : Meets e1 e2 A (B m)) : ∃ s, (((A.bind (Sum.elim (fun e => if e.1 = e1 then (some (.inr (1, (e.2, m, o)))) else (if e.1 = e2 then (some (.inr (2, (e.2, m, o)))) else none)) (fun (r1, s1) => some (.inr (0, (s1, m, r1.toInt64))))) : Option ((Nat × lS) ⊕ (Int32 × lS))).bind (Sum.elim (fun e => none) (fun (r3, s3) => (B s3.2.1).bind (fun (r6, s6) => if (fX8_thrown s6) = r3 then (if r3 = 0 then (if (lg_cmp s3.2.2 r6.toInt64) = 0 then (some (s3.1, s6, s3.2.2)) else (none)) else (some (s3.1, s6, s3.2.2))) else (none))))) : Option lS) = some s ∧ Rel s.1 s.2.1 := by
  rcases M with ⟨r, a1, m1, h1, h2, h3, h4⟩ | ⟨r, a1, m1, h1, h2, h3, h4⟩ | ⟨r, a1, m1, h1, h2, h3, h4⟩
  · refine ⟨(a1, m1, r.toInt64), ?_, h4⟩
    rw [h1]
    simp only [Option.bind_some, Sum.elim_inr, h2, fX8_thrown, h3, if_true, lg0]
  · refine ⟨(a1, m1, o), ?_, h4⟩
    rw [h1]
    simp only [Option.bind_some, Sum.elim_inr, Sum.elim_inl, h2, fX8_thrown, h3, if_true, one_0]
  · refine ⟨(a1, m1, o), ?_, h4⟩
    rw [h1]
    simp only [Option.bind_some, Sum.elim_inr, Sum.elim_inl, h2, fX8_thrown, h3, if_true, if_neg hne, if_neg (show ¬ (2 : Int32) = 0 by decide)]
theorem lawI1 {e1 : Nat} {m : mS} {o : Int64} {A : Option ((Nat × cS) ⊕ (Int32 × cS))} {B : mS → Option (Int32 × mS)} (M : ∀ e2, Meets e1 e2 A (B m)) : ∃ s, (((A.bind (Sum.elim (fun e => if e.1 = e1 then (some (.inr (1, (e.2, m, o)))) else none) (fun (r1, s1) => some (.inr (0, (s1, m, r1.toInt64))))) : Option ((Nat × lS) ⊕ (Int32 × lS))).bind (Sum.elim (fun e => none) (fun (r3, s3) => (B s3.2.1).bind (fun (r6, s6) => if (fX8_thrown s6) = r3 then (if r3 = 0 then (if (lg_cmp s3.2.2 r6.toInt64) = 0 then (some (s3.1, s6, s3.2.2)) else (none)) else (some (s3.1, s6, s3.2.2))) else (none))))) : Option lS) = some s ∧ Rel s.1 s.2.1 := by
  rcases Meets.two M with ⟨r, a1, m1, h1, h2, h3, h4⟩ | ⟨r, a1, m1, h1, h2, h3, h4⟩
  · refine ⟨(a1, m1, r.toInt64), ?_, h4⟩
    rw [h1]
    simp only [Option.bind_some, Sum.elim_inr, h2, fX8_thrown, h3, if_true, lg0]
  · refine ⟨(a1, m1, o), ?_, h4⟩
    rw [h1]
    simp only [Option.bind_some, Sum.elim_inr, Sum.elim_inl, h2, fX8_thrown, h3, if_true, one_0]
theorem law0 {m : mS} {o : Int64} {A : Option (Int32 × cS)} {B : Option (Int32 × mS)} (M : Meet0 A B) : ∃ s, (A.bind (fun (r1, s1) => B.bind (fun (r2, s2) => if r1 = r2 then (some (s1, s2, o)) else (none))) : Option lS) = some s ∧ Rel s.1 s.2.1 := by
  obtain ⟨r, a1, m1, h1, h2, h3⟩ := M
  refine ⟨(a1, m1, o), ?_, h3⟩
  rw [h1, h2]
  simp only [Option.bind_some, if_true]
theorem k_c0 {L : Nat} {ys : Nat → Int32} {i : Int32} {s : lS} (hR : Rel s.1 s.2.1) (h1 : vin (i + 1) L = true) (h2 : vin (i + 2) L = true) : ∃ s2, fL_c0 L ys i s = some s2 ∧ Rel s2.1 s2.2.1 := by
  unfold fL_c0 fL_add
  simp only [h1, h2, if_true]
  exact lawB2 (B := fun m => fX8_add (ys (i + 1).toNatClampNeg) (ys (i + 2).toNatClampNeg) m) (by decide) (g_add hR _ _)
theorem k_c1 {L : Nat} {ys : Nat → Int32} {i : Int32} {s : lS} (hR : Rel s.1 s.2.1) (h1 : vin (i + 1) L = true) (h2 : vin (i + 2) L = true) : ∃ s2, fL_c1 L ys i s = some s2 ∧ Rel s2.1 s2.2.1 := by
  unfold fL_c1 fL_remove
  simp only [h1, h2, if_true]
  exact lawB2 (B := fun m => fX8_remove (ys (i + 1).toNatClampNeg) (ys (i + 2).toNatClampNeg) m) (by decide) (g_remove hR _ _)
theorem k_c2 {L : Nat} {ys : Nat → Int32} {i : Int32} {s : lS} (hR : Rel s.1 s.2.1) (h1 : vin (i + 1) L = true) (h2 : vin (i + 2) L = true) : ∃ s2, fL_c2 L ys i s = some s2 ∧ Rel s2.1 s2.2.1 := by
  unfold fL_c2 fL_has
  simp only [h1, h2, if_true]
  exact lawB2 (B := fun m => fX8_has (ys (i + 1).toNatClampNeg) (ys (i + 2).toNatClampNeg) m) (by decide) (g_has hR _ _)
theorem k_c3 {L : Nat} {ys : Nat → Int32} {i : Int32} {s : lS} (hR : Rel s.1 s.2.1) (h1 : vin (i + 1) L = true) : ∃ s2, fL_c3 L ys i s = some s2 ∧ Rel s2.1 s2.2.1 := by
  unfold fL_c3 fL_size
  simp only [h1, if_true]
  exact lawI1 (B := fun m => fX8_size (ys (i + 1).toNatClampNeg) m) (fun _ => g_size hR _)
theorem k_c4 {L : Nat} {ys : Nat → Int32} {i : Int32} {s : lS} (hR : Rel s.1 s.2.1) (h1 : vin (i + 1) L = true) : ∃ s2, fL_c4 L ys i s = some s2 ∧ Rel s2.1 s2.2.1 := by
  unfold fL_c4 fL_sum
  simp only [h1, if_true]
  exact lawI1 (B := fun m => fX8_sum (ys (i + 1).toNatClampNeg) m) (fun _ => g_sum hR _)
theorem k_c5 {L : Nat} {ys : Nat → Int32} {i : Int32} {s : lS} (hR : Rel s.1 s.2.1) (h1 : vin (i + 1) L = true) : ∃ s2, fL_c5 L ys i s = some s2 ∧ Rel s2.1 s2.2.1 := by
  unfold fL_c5 fL_clear
  simp only [h1, if_true]
  exact lawI1 (B := fun m => fX8_clear (ys (i + 1).toNatClampNeg) m) (fun _ => g_clear hR _)
theorem k_c6 {L : Nat} {ys : Nat → Int32} {i : Int32} {s : lS} (hR : Rel s.1 s.2.1) (h1 : vin (i + 1) L = true) (h2 : vin (i + 2) L = true) (h3 : vin (i + 3) L = true) (h4 : vin (i + 4) L = true) : ∃ s2, fL_c6 L ys i s = some s2 ∧ Rel s2.1 s2.2.1 := by
  unfold fL_c6 fL_fill
  simp only [h1, h2, h3, h4, if_true]
  exact lawI2 (B := fun m => fX8_fill (ys (i + 1).toNatClampNeg) (ys (i + 2).toNatClampNeg) (ys (i + 3).toNatClampNeg) (ys (i + 4).toNatClampNeg) m) (by decide) (g_fill hR _ _ _ _)
theorem k_c7 {L : Nat} {ys : Nat → Int32} {i : Int32} {s : lS} (hR : Rel s.1 s.2.1) (h1 : vin (i + 1) L = true) (h2 : vin (i + 2) L = true) : ∃ s2, fL_c7 L ys i s = some s2 ∧ Rel s2.1 s2.2.1 := by
  unfold fL_c7 fL_memberAt
  simp only [h1, h2, if_true]
  exact lawI2 (B := fun m => fX8_memberAt (ys (i + 1).toNatClampNeg) (ys (i + 2).toNatClampNeg) m) (by decide) (g_memberAt hR _ _)
theorem k_c8 {L : Nat} {ys : Nat → Int32} {i : Int32} {s : lS} (hR : Rel s.1 s.2.1) (h1 : vin (i + 1) L = true) : ∃ s2, fL_c8 L ys i s = some s2 ∧ Rel s2.1 s2.2.1 := by
  unfold fL_c8 fL_least
  simp only [h1, if_true]
  exact lawI2 (B := fun m => fX8_least (ys (i + 1).toNatClampNeg) m) (by decide) (g_least hR _)
theorem k_c9 {L : Nat} {ys : Nat → Int32} {i : Int32} {s : lS} (hR : Rel s.1 s.2.1) (h1 : vin (i + 1) L = true) : ∃ s2, fL_c9 L ys i s = some s2 ∧ Rel s2.1 s2.2.1 := by
  unfold fL_c9 fL_greatest
  simp only [h1, if_true]
  exact lawI2 (B := fun m => fX8_greatest (ys (i + 1).toNatClampNeg) m) (by decide) (g_greatest hR _)
theorem k_c10 {L : Nat} {ys : Nat → Int32} {i : Int32} {s : lS} (hR : Rel s.1 s.2.1) (h1 : vin (i + 1) L = true) (h2 : vin (i + 2) L = true) : ∃ s2, fL_c10 L ys i s = some s2 ∧ Rel s2.1 s2.2.1 := by
  unfold fL_c10 fL_unite
  simp only [h1, h2, if_true]
  exact lawB1 (B := fun m => fX8_unite (ys (i + 1).toNatClampNeg) (ys (i + 2).toNatClampNeg) m) (fun _ => g_unite hR _ _)
theorem k_c11 {L : Nat} {ys : Nat → Int32} {i : Int32} {s : lS} (hR : Rel s.1 s.2.1) (h1 : vin (i + 1) L = true) (h2 : vin (i + 2) L = true) : ∃ s2, fL_c11 L ys i s = some s2 ∧ Rel s2.1 s2.2.1 := by
  unfold fL_c11 fL_meet
  simp only [h1, h2, if_true]
  exact lawB1 (B := fun m => fX8_meet (ys (i + 1).toNatClampNeg) (ys (i + 2).toNatClampNeg) m) (fun _ => g_meet hR _ _)
theorem k_c12 {L : Nat} {ys : Nat → Int32} {i : Int32} {s : lS} (hR : Rel s.1 s.2.1) (h1 : vin (i + 1) L = true) (h2 : vin (i + 2) L = true) : ∃ s2, fL_c12 L ys i s = some s2 ∧ Rel s2.1 s2.2.1 := by
  unfold fL_c12 fL_without
  simp only [h1, h2, if_true]
  exact lawB1 (B := fun m => fX8_without (ys (i + 1).toNatClampNeg) (ys (i + 2).toNatClampNeg) m) (fun _ => g_without hR _ _)
theorem k_c13 {L : Nat} {ys : Nat → Int32} {i : Int32} {s : lS} (hR : Rel s.1 s.2.1) (h1 : vin (i + 1) L = true) (h2 : vin (i + 2) L = true) : ∃ s2, fL_c13 L ys i s = some s2 ∧ Rel s2.1 s2.2.1 := by
  unfold fL_c13 fL_copy
  simp only [h1, h2, if_true]
  exact lawI1 (B := fun m => fX8_copy (ys (i + 1).toNatClampNeg) (ys (i + 2).toNatClampNeg) m) (fun _ => g_copy hR _ _)
theorem k_c14 {L : Nat} {ys : Nat → Int32} {i : Int32} {s : lS} (hR : Rel s.1 s.2.1) (h1 : vin (i + 1) L = true) (h2 : vin (i + 2) L = true) (h3 : vin (i + 3) L = true) : ∃ s2, fL_c14 L ys i s = some s2 ∧ Rel s2.1 s2.2.1 := by
  unfold fL_c14 fL_sieve
  simp only [h1, h2, h3, if_true]
  exact lawI2 (B := fun m => fX8_sieve (ys (i + 1).toNatClampNeg) (ys (i + 2).toNatClampNeg) (ys (i + 3).toNatClampNeg) m) (by decide) (g_sieve hR _ _ _)
theorem k_c15 {L : Nat} {ys : Nat → Int32} {i : Int32} {s : lS} (hR : Rel s.1 s.2.1) (h1 : vin (i + 1) L = true) (h2 : vin (i + 2) L = true) : ∃ s2, fL_c15 L ys i s = some s2 ∧ Rel s2.1 s2.2.1 := by
  unfold fL_c15 fL_isWithin
  simp only [h1, h2, if_true]
  exact lawB1 (B := fun m => fX8_isWithin (ys (i + 1).toNatClampNeg) (ys (i + 2).toNatClampNeg) m) (fun _ => g_isWithin hR _ _)
theorem k_c16 {L : Nat} {ys : Nat → Int32} {i : Int32} {s : lS} (hR : Rel s.1 s.2.1) (h1 : vin (i + 1) L = true) (h2 : vin (i + 2) L = true) : ∃ s2, fL_c16 L ys i s = some s2 ∧ Rel s2.1 s2.2.1 := by
  unfold fL_c16 fL_isApart
  simp only [h1, h2, if_true]
  exact lawB1 (B := fun m => fX8_isApart (ys (i + 1).toNatClampNeg) (ys (i + 2).toNatClampNeg) m) (fun _ => g_isApart hR _ _)
theorem k_c17 {L : Nat} {ys : Nat → Int32} {i : Int32} {s : lS} (hR : Rel s.1 s.2.1) (h1 : vin (i + 1) L = true) (h2 : vin (i + 2) L = true) : ∃ s2, fL_c17 L ys i s = some s2 ∧ Rel s2.1 s2.2.1 := by
  unfold fL_c17 fL_isSame
  simp only [h1, h2, if_true]
  exact lawB1 (B := fun m => fX8_isSame (ys (i + 1).toNatClampNeg) (ys (i + 2).toNatClampNeg) m) (fun _ => g_isSame hR _ _)
theorem k_c18 {L : Nat} {ys : Nat → Int32} {i : Int32} {s : lS} (hR : Rel s.1 s.2.1) (h1 : vin (i + 1) L = true) : ∃ s2, fL_c18 L ys i s = some s2 ∧ Rel s2.1 s2.2.1 := by
  unfold fL_c18 fL_vote
  simp only [h1, if_true]
  exact lawI1 (B := fun m => fX8_vote (ys (i + 1).toNatClampNeg) m) (fun _ => g_vote hR _)
theorem k_c19 {L : Nat} {ys : Nat → Int32} {i : Int32} {s : lS} (hR : Rel s.1 s.2.1) (h1 : vin (i + 1) L = true) (h2 : vin (i + 2) L = true) : ∃ s2, fL_c19 L ys i s = some s2 ∧ Rel s2.1 s2.2.1 := by
  unfold fL_c19 fL_elect
  simp only [h1, h2, if_true]
  exact lawI2 (B := fun m => fX8_elect (ys (i + 1).toNatClampNeg) (ys (i + 2).toNatClampNeg) m) (by decide) (g_elect hR _ _)
theorem k_c20 {L : Nat} {ys : Nat → Int32} {i : Int32} {s : lS} (hR : Rel s.1 s.2.1) (h1 : vin (i + 1) L = true) : ∃ s2, fL_c20 L ys i s = some s2 ∧ Rel s2.1 s2.2.1 := by
  unfold fL_c20 fL_keep
  simp only [h1, if_true]
  exact lawB2 (B := fun m => fX8_keep (ys (i + 1).toNatClampNeg) m) (by decide) (g_keep hR _)
theorem k_c21 {L : Nat} {ys : Nat → Int32} {i : Int32} {s : lS} (hR : Rel s.1 s.2.1) (h1 : vin (i + 1) L = true) : ∃ s2, fL_c21 L ys i s = some s2 ∧ Rel s2.1 s2.2.1 := by
  unfold fL_c21 fL_drop
  simp only [h1, if_true]
  exact lawB1 (B := fun m => fX8_drop (ys (i + 1).toNatClampNeg) m) (fun _ => g_drop hR _)
theorem k_c22 {L : Nat} {ys : Nat → Int32} {i : Int32} {s : lS} (hR : Rel s.1 s.2.1) (h1 : vin (i + 1) L = true) : ∃ s2, fL_c22 L ys i s = some s2 ∧ Rel s2.1 s2.2.1 := by
  unfold fL_c22 fL_isKept
  simp only [h1, if_true]
  exact lawB1 (B := fun m => fX8_isKept (ys (i + 1).toNatClampNeg) m) (fun _ => g_isKept hR _)
theorem k_c23 {L : Nat} {ys : Nat → Int32} {i : Int32} {s : lS} (hR : Rel s.1 s.2.1)  : ∃ s2, fL_c23 L ys i s = some s2 ∧ Rel s2.1 s2.2.1 := by
  unfold fL_c23
  obtain ⟨r, a1, m1, e1, e2, e3⟩ := g_kept hR
  have e4 := congrArg (fun z => z.map Prod.fst) e1
  have e4 : some (fX7_kept s.1) = some r := e4
  have e5 := Option.some.inj (congrArg (fun z => z.map Prod.snd) e1 : some s.1 = some a1)
  refine ⟨(s.1, m1, s.2.2), ?_, by rw [e5]; exact e3⟩
  rw [e2]
  simp only [Option.bind_some]
  rw [if_pos (Option.some.inj e4)]
theorem k_c24 {L : Nat} {ys : Nat → Int32} {i : Int32} {s : lS} (hR : Rel s.1 s.2.1)  : ∃ s2, fL_c24 L ys i s = some s2 ∧ Rel s2.1 s2.2.1 := by
  unfold fL_c24
  exact law0 (m := s.2.1) (g_keptSum hR)
theorem k_c25 {L : Nat} {ys : Nat → Int32} {i : Int32} {s : lS} (hR : Rel s.1 s.2.1)  : ∃ s2, fL_c25 L ys i s = some s2 ∧ Rel s2.1 s2.2.1 := by
  unfold fL_c25
  exact law0 (m := s.2.1) (g_dropAll hR)
theorem k_c26 {L : Nat} {ys : Nat → Int32} {i : Int32} {s : lS} (hR : Rel s.1 s.2.1) (h1 : vin (i + 1) L = true) : ∃ s2, fL_c26 L ys i s = some s2 ∧ Rel s2.1 s2.2.1 := by
  unfold fL_c26 fL_placeOf
  simp only [h1, if_true]
  exact lawI1 (B := fun m => fX8_placeOf (ys (i + 1).toNatClampNeg) m) (fun _ => g_placeOf hR _)
theorem k_c27 {L : Nat} {ys : Nat → Int32} {i : Int32} {s : lS} (hR : Rel s.1 s.2.1) (h1 : vin (i + 1) L = true) (h2 : vin (i + 2) L = true) : ∃ s2, fL_c27 L ys i s = some s2 ∧ Rel s2.1 s2.2.1 := by
  unfold fL_c27 fL_take
  simp only [h1, h2, if_true]
  exact lawI2 (B := fun m => fX8_take (ys (i + 1).toNatClampNeg) (ys (i + 2).toNatClampNeg) m) (by decide) (g_take hR _ _)
theorem k_c28 {L : Nat} {ys : Nat → Int32} {i : Int32} {s : lS} (hR : Rel s.1 s.2.1) (h1 : vin (i + 1) L = true) : ∃ s2, fL_c28 L ys i s = some s2 ∧ Rel s2.1 s2.2.1 := by
  unfold fL_c28 fL_spread
  simp only [h1, if_true]
  exact lawI1 (B := fun m => fX8_spread (ys (i + 1).toNatClampNeg) m) (fun _ => g_spread hR _)
theorem k_c29 {L : Nat} {ys : Nat → Int32} {i : Int32} {s : lS} (hR : Rel s.1 s.2.1) (h1 : vin (i + 1) L = true) : ∃ s2, fL_c29 L ys i s = some s2 ∧ Rel s2.1 s2.2.1 := by
  unfold fL_c29 fL_isClosed
  simp only [h1, if_true]
  exact lawB1 (B := fun m => fX8_isClosed (ys (i + 1).toNatClampNeg) m) (fun _ => g_isClosed hR _)
theorem k_c30 {L : Nat} {ys : Nat → Int32} {i : Int32} {s : lS} (hR : Rel s.1 s.2.1)  : ∃ s2, fL_c30 L ys i s = some s2 ∧ Rel s2.1 s2.2.1 := by
  unfold fL_c30
  exact law0 (m := s.2.1) (g_isChain hR)
theorem k_c31 {L : Nat} {ys : Nat → Int32} {i : Int32} {s : lS} (hR : Rel s.1 s.2.1)  : ∃ s2, fL_c31 L ys i s = some s2 ∧ Rel s2.1 s2.2.1 := by
  unfold fL_c31
  exact law0 (m := s.2.1) (g_primes hR)
theorem k_c32 {L : Nat} {ys : Nat → Int32} {i : Int32} {s : lS} (hR : Rel s.1 s.2.1) (h1 : vin (i + 1) L = true) : ∃ s2, fL_c32 L ys i s = some s2 ∧ Rel s2.1 s2.2.1 := by
  unfold fL_c32 fL_primesWithin
  simp only [h1, if_true]
  exact lawI1 (B := fun m => fX8_primesWithin (ys (i + 1).toNatClampNeg) m) (fun _ => g_primesWithin hR _)
theorem k_c33 {L : Nat} {ys : Nat → Int32} {i : Int32} {s : lS} (hR : Rel s.1 s.2.1) (h1 : vin (i + 1) L = true) (h2 : vin (i + 2) L = true) : ∃ s2, fL_c33 L ys i s = some s2 ∧ Rel s2.1 s2.2.1 := by
  unfold fL_c33 fL_type
  simp only [h1, h2, if_true]
  exact lawI1 (B := fun m => fX8_type ((((ys (i + 1).toNatClampNeg).toInt64) <<< ((32 : Int32).toInt64 &&& 63)) ||| (((ys (i + 2).toNatClampNeg).toInt64) &&& 4294967295)) m) (fun _ => g_type hR _)
theorem k_c34 {L : Nat} {ys : Nat → Int32} {i : Int32} {s : lS} (hR : Rel s.1 s.2.1)  : ∃ s2, fL_c34 L ys i s = some s2 ∧ Rel s2.1 s2.2.1 := by
  unfold fL_c34
  exact law0 (m := s.2.1) (g_clearText hR)
theorem k_c35 {L : Nat} {ys : Nat → Int32} {i : Int32} {s : lS} (hR : Rel s.1 s.2.1)  : ∃ s2, fL_c35 L ys i s = some s2 ∧ Rel s2.1 s2.2.1 := by
  unfold fL_c35
  obtain ⟨r, a1, m1, e1, e2, e3⟩ := g_textLength hR
  have e4 := congrArg (fun z => z.map Prod.fst) e1
  have e4 : some (fX7_textLength s.1) = some r := e4
  have e5 := Option.some.inj (congrArg (fun z => z.map Prod.snd) e1 : some s.1 = some a1)
  refine ⟨(s.1, m1, s.2.2), ?_, by rw [e5]; exact e3⟩
  rw [e2]
  simp only [Option.bind_some]
  rw [if_pos (Option.some.inj e4)]
theorem k_c36 {L : Nat} {ys : Nat → Int32} {i : Int32} {s : lS} (hR : Rel s.1 s.2.1) (h1 : vin (i + 1) L = true) : ∃ s2, fL_c36 L ys i s = some s2 ∧ Rel s2.1 s2.2.1 := by
  unfold fL_c36 fL_example
  simp only [h1, if_true]
  exact lawI1 (B := fun m => fX8_example (ys (i + 1).toNatClampNeg) m) (fun _ => g_example hR _)
theorem k_c37 {L : Nat} {ys : Nat → Int32} {i : Int32} {s : lS} (hR : Rel s.1 s.2.1)  : ∃ s2, fL_c37 L ys i s = some s2 ∧ Rel s2.1 s2.2.1 := by
  unfold fL_c37
  exact law0 (m := s.2.1) (g_errorKind hR)
theorem k_c38 {L : Nat} {ys : Nat → Int32} {i : Int32} {s : lS} (hR : Rel s.1 s.2.1)  : ∃ s2, fL_c38 L ys i s = some s2 ∧ Rel s2.1 s2.2.1 := by
  unfold fL_c38
  exact law0 (m := s.2.1) (g_errorPlace hR)
theorem k_c39 {L : Nat} {ys : Nat → Int32} {i : Int32} {s : lS} (hR : Rel s.1 s.2.1)  : ∃ s2, fL_c39 L ys i s = some s2 ∧ Rel s2.1 s2.2.1 := by
  unfold fL_c39 fL_run
  exact lawI1 (B := fun m => fX8_run m) (fun _ => g_run hR)
theorem k_c40 {L : Nat} {ys : Nat → Int32} {i : Int32} {s : lS} (hR : Rel s.1 s.2.1) (h1 : vin (i + 1) L = true) (h2 : vin (i + 2) L = true) : ∃ s2, fL_c40 L ys i s = some s2 ∧ Rel s2.1 s2.2.1 := by
  unfold fL_c40 fL_viewHas
  simp only [h1, h2, if_true]
  exact lawB2 (B := fun m => fX8_viewHas (ys (i + 1).toNatClampNeg) (ys (i + 2).toNatClampNeg) m) (by decide) (g_viewHas hR _ _)
theorem k_c41 {L : Nat} {ys : Nat → Int32} {i : Int32} {s : lS} (hR : Rel s.1 s.2.1) (h1 : vin (i + 1) L = true) (h2 : vin (i + 2) L = true) (h3 : vin (i + 3) L = true) : ∃ s2, fL_c41 L ys i s = some s2 ∧ Rel s2.1 s2.2.1 := by
  unfold fL_c41 fL_viewRefuses
  simp only [h1, h2, h3, if_true]
  exact lawB2 (B := fun m => fX8_viewRefuses (ys (i + 1).toNatClampNeg) (ys (i + 2).toNatClampNeg) (ys (i + 3).toNatClampNeg) m) (by decide) (g_viewRefuses hR _ _ _)
theorem k_c42 {L : Nat} {ys : Nat → Int32} {i : Int32} {s : lS} (hR : Rel s.1 s.2.1) (h1 : vin (i + 1) L = true) (h2 : vin (i + 2) L = true) : ∃ s2, fL_c42 L ys i s = some s2 ∧ Rel s2.1 s2.2.1 := by
  unfold fL_c42 fL_walkRefuses
  simp only [h1, h2, if_true]
  exact lawI2 (B := fun m => fX8_walkRefuses (ys (i + 1).toNatClampNeg) (ys (i + 2).toNatClampNeg) m) (by decide) (g_walkRefuses hR _ _)
theorem k_c43 {L : Nat} {ys : Nat → Int32} {i : Int32} {s : lS} (hR : Rel s.1 s.2.1) (h1 : vin (i + 1) L = true) (h2 : vin (i + 2) L = true) : ∃ s2, fL_c43 L ys i s = some s2 ∧ Rel s2.1 s2.2.1 := by
  unfold fL_c43 fL_nullRefuses
  simp only [h1, h2, if_true]
  exact lawB2 (B := fun m => fX8_nullRefuses (ys (i + 1).toNatClampNeg) (ys (i + 2).toNatClampNeg) m) (by decide) (g_nullRefuses hR _ _)
theorem k_c44 {L : Nat} {ys : Nat → Int32} {i : Int32} {s : lS} (hR : Rel s.1 s.2.1) (h1 : vin (i + 1) L = true) (h2 : vin (i + 2) L = true) (h3 : vin (i + 3) L = true) : ∃ s2, fL_c44 L ys i s = some s2 ∧ Rel s2.1 s2.2.1 := by
  unfold fL_c44 fL_lawErrors
  simp only [h1, h2, h3, if_true]
  exact lawI1 (B := fun m => fX8_lawErrors (ys (i + 1).toNatClampNeg) (ys (i + 2).toNatClampNeg) (ys (i + 3).toNatClampNeg) m) (fun _ => g_lawErrors hR _ _ _)
theorem k_c45 {L : Nat} {ys : Nat → Int32} {i : Int32} {s : lS} (hR : Rel s.1 s.2.1)  : ∃ s2, fL_c45 L ys i s = some s2 ∧ Rel s2.1 s2.2.1 := by
  unfold fL_c45
  exact law0 (m := s.2.1) (g_familyErrors hR)
theorem k_c46 {L : Nat} {ys : Nat → Int32} {i : Int32} {s : lS} (hR : Rel s.1 s.2.1)  : ∃ s2, fL_c46 L ys i s = some s2 ∧ Rel s2.1 s2.2.1 := by
  unfold fL_c46
  obtain ⟨r, a1, m1, e1, e2, e3⟩ := g_meanSize hR
  refine ⟨(a1, m1, s.2.2), ?_, e3⟩
  rw [e1, e2]
  simp only [Option.bind_some]
  by_cases c : (Op.cmpValue (FP.dcmp r r) .l) = 0
  · rw [if_pos c]
  · rw [if_neg c, if_neg c, if_neg c]
theorem k_c47 {L : Nat} {ys : Nat → Int32} {i : Int32} {s : lS} (hR : Rel s.1 s.2.1)  : ∃ s2, fL_c47 L ys i s = some s2 ∧ Rel s2.1 s2.2.1 := by
  unfold fL_c47
  obtain ⟨r, a1, m1, e1, e2, e3, e4⟩ := g_nothingShare hR
  refine ⟨(a1, m1, s.2.2), ?_, e4⟩
  rw [e1, e2]
  simp only [Option.bind_some]
  rw [if_pos e3, if_pos e3]
  by_cases c : (Op.cmpValue (FP.dcmp (FP.f2d r) (FP.f2d r)) .l) = 0
  · rw [if_pos c]
  · rw [if_neg c, if_neg c, if_neg c]
