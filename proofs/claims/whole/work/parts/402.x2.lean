/-! ===== MemberSet: each method by what it does with sets ===== -/
theorem nI_m64 {k : Nat} (h : k < 102) : nI k - nI k / 64 * 64 = nI (k % 64) := pk_rem (a := k) (d := 64) (by omega) (by decide) (by decide)
theorem sh_tn {j : Nat} (h : j < 64) : ((nI j).toInt64.toUInt64 &&& Int64.toUInt64 63).toNat = j := by
  rw [wb_cu j h]
  show (BitVec.ofNat 64 j).toNat = j
  rw [BitVec.toNat_ofNat, Nat.mod_eq_of_lt (by omega)]
theorem p_holds (n : Nat) (s : cS) {k : Nat} (h : k < 102) : fX2_holds n (nI k) s = bi (cB s n k) := by
  unfold fX2_holds
  rw [if_neg (nI_pos (by omega)), if_pos (show nI k < 102 from nI_lt h (by decide)), nI_m64 h]
  unfold cB pB
  by_cases c : k < 64
  · rw [if_neg (show ¬ (64 : Int32) ≤ nI k from nI_ge c (by decide)), if_pos c, Nat.mod_eq_of_lt c]
    have t := ts_bit (w := sL s n) c (sh_tn c)
    cases e : (sL s n).toBitVec.getLsbD k
    · rw [if_pos ((lg_cmp_eq _ _).mpr (t.mpr e))]; rfl
    · rw [if_neg (fun z => by rw [t.mp ((lg_cmp_eq _ _).mp z)] at e; exact Bool.noConfusion e)]; rfl
  · rw [if_pos (show (64 : Int32) ≤ nI k from nI_le (a := 64) (by omega) (by omega)), if_neg c, show k % 64 = k - 64 from by omega]
    have t := ts_bit (w := sH s n) (j := k - 64) (by omega) (sh_tn (by omega))
    cases e : (sH s n).toBitVec.getLsbD (k - 64)
    · rw [if_pos ((lg_cmp_eq _ _).mpr (t.mpr e))]; rfl
    · rw [if_neg (fun z => by rw [t.mp ((lg_cmp_eq _ _).mp z)] at e; exact Bool.noConfusion e)]; rfl
theorem tw_bit : ∀ j, j < 64 → ((1 : Int64) <<< ((nI j).toInt64 &&& 63)).toBitVec = BitVec.twoPow 64 j := by decide +kernel
theorem p_flip (n : Nat) (s : cS) {k : Nat} (h : k < 102) : ∃ s', fX2_flip n (nI k) s = some s' ∧ cB s' = va_up (cB s) n (va_up (cB s n) k (!cB s n k)) ∧ s'.2.2 = s.2.2 := by
  unfold fX2_flip
  rw [nI_m64 h]
  by_cases c : k < 64
  · rw [if_neg (show ¬ (64 : Int32) ≤ nI k from nI_ge c (by decide)), Nat.mod_eq_of_lt c]
    refine ⟨_, rfl, ?_, rfl⟩
    funext q
    by_cases d : q = n
    · subst d
      rw [zu_at]
      funext j
      unfold cB
      show pB (sL (uL s q _) q) (sH s q) j = _
      rw [sL_uL, if_pos rfl]
      unfold pB
      rw [Int64.toBitVec_xor, BitVec.getLsbD_xor, tw_bit k c, BitVec.getLsbD_twoPow]
      by_cases e : j = k
      · subst e
        rw [zu_at, if_pos c, if_pos c]
        simp [c]
      · rw [zu_ne _ e]
        by_cases f : j < 64
        · rw [if_pos f, if_pos f]
          simp [c, Ne.symm e]
        · rw [if_neg f, if_neg f]
    · rw [zu_ne _ d]
      unfold cB
      show pB (sL (uL s n _) q) (sH s q) = _
      rw [sL_uL, if_neg d]
  · rw [if_pos (show (64 : Int32) ≤ nI k from nI_le (a := 64) (by omega) (by omega)), show k % 64 = k - 64 from by omega]
    refine ⟨_, rfl, ?_, rfl⟩
    funext q
    by_cases d : q = n
    · subst d
      rw [zu_at]
      funext j
      unfold cB
      show pB (sL s q) (sH (uH s q _) q) j = _
      rw [sH_uH, if_pos rfl]
      unfold pB
      rw [Int64.toBitVec_xor, BitVec.getLsbD_xor, tw_bit (k - 64) (by omega), BitVec.getLsbD_twoPow]
      by_cases e : j = k
      · subst e
        rw [zu_at, if_neg c, if_neg c]
        simp [show j - 64 < 64 from by omega]
      · rw [zu_ne _ e]
        by_cases f : j < 64
        · rw [if_pos f, if_pos f]
        · rw [if_neg f, if_neg f]
          simp [show k - 64 < 64 from by omega, show ¬ k - 64 = j - 64 from by omega]
    · rw [zu_ne _ d]
      unfold cB
      show pB (sL s q) (sH (uH s n _) q) = _
      rw [sH_uH, if_neg d]
theorem p_put (n : Nat) (s : cS) {k : Nat} (h : k < 102) : ∃ s', fX2_put n (nI k) s = some (bi (!cB s n k), s') ∧ cB s' = va_up (cB s) n (va_up (cB s n) k true) ∧ s'.2.2 = s.2.2 := by
  unfold fX2_put
  rw [if_neg (nI_pos (by omega)), if_neg (show ¬ (102 : Int32) ≤ nI k from nI_ge h (by decide)), p_holds n s h, if_bi]
  cases e : cB s n k
  · obtain ⟨s', h1, h2, h3⟩ := p_flip n s h
    rw [if_neg (fun z => Bool.noConfusion z), h1]
    refine ⟨s', rfl, ?_, h3⟩
    rw [h2, e]
    rfl
  · rw [if_pos rfl]
    refine ⟨s, rfl, ?_, rfl⟩
    rw [← e, zu_self, zu_self]
theorem p_takeOut (n : Nat) (s : cS) {k : Nat} (h : k < 102) : ∃ s', fX2_takeOut n (nI k) s = some (bi (cB s n k), s') ∧ cB s' = va_up (cB s) n (va_up (cB s n) k false) ∧ s'.2.2 = s.2.2 := by
  unfold fX2_takeOut
  rw [p_holds n s h, if_bi]
  cases e : cB s n k
  · rw [if_neg (fun z => Bool.noConfusion z)]
    refine ⟨s, rfl, ?_, rfl⟩
    rw [← e, zu_self, zu_self]
  · obtain ⟨s', h1, h2, h3⟩ := p_flip n s h
    rw [if_pos rfl, h1]
    refine ⟨s', rfl, ?_, h3⟩
    rw [h2, e]
    rfl
theorem p_empty (n : Nat) (s : cS) : ∃ s', fX2_empty n s = some s' ∧ cB s' = va_up (cB s) n (fun _ => false) ∧ s'.2.2 = s.2.2 := by
  refine ⟨_, rfl, ?_, rfl⟩
  rw [cB_up, pB_0]
theorem p_become (n p : Nat) (s : cS) : ∃ s', fX2_become n p s = some s' ∧ cB s' = va_up (cB s) n (cB s p) ∧ s'.2.2 = s.2.2 := by
  refine ⟨_, rfl, ?_, rfl⟩
  rw [cB_up]
  rfl
theorem cmb (s : cS) (n : Nat) (X Y : Int64) : (if lg_cmp (sL (uH (uL s n X) n Y) n) (sL s n) = 0 then (if lg_cmp (sH (uH (uL s n X) n Y) n) (sH s n) = 0 then some ((0 : Int32), uH (uL s n X) n Y) else some (1, uH (uL s n X) n Y)) else some (1, uH (uL s n X) n Y)) = some (bi (!same (cB s n) (pB X Y)), uH (uL s n X) n Y) := by
  have e1 : sL (uH (uL s n X) n Y) n = X := by
    show sL (uL s n X) n = X
    rw [sL_uL, if_pos rfl]
  have e2 : sH (uH (uL s n X) n Y) n = Y := by rw [sH_uH, if_pos rfl]
  rw [e1, e2]
  have k : same (cB s n) (pB X Y) = true ↔ sL s n = X ∧ sH s n = Y := by
    unfold same cB
    rw [pd_iff, pB_inj]
  by_cases a : X = sL s n
  · rw [if_pos ((lg_cmp_eq _ _).mpr a)]
    by_cases b : Y = sH s n
    · rw [if_pos ((lg_cmp_eq _ _).mpr b), k.mpr ⟨a.symm, b.symm⟩]
      rfl
    · rw [if_neg (fun z => b ((lg_cmp_eq _ _).mp z)), ts_nt' (fun z => b (k.mp z).2.symm)]
      rfl
  · rw [if_neg (fun z => a ((lg_cmp_eq _ _).mp z)), ts_nt' (fun z => a (k.mp z).1.symm)]
    rfl
theorem cmb2 (s : cS) (n : Nat) (X Y : Int64) {Z : BS} (e : pB X Y = Z) : ∃ s', (if lg_cmp (sL (uH (uL s n X) n Y) n) (sL s n) = 0 then (if lg_cmp (sH (uH (uL s n X) n Y) n) (sH s n) = 0 then some ((0 : Int32), uH (uL s n X) n Y) else some (1, uH (uL s n X) n Y)) else some (1, uH (uL s n X) n Y)) = some (bi (!same (cB s n) Z), s') ∧ cB s' = va_up (cB s) n Z ∧ s'.2.2 = s.2.2 := by
  subst e
  exact ⟨_, cmb s n X Y, cB_up s n X Y, rfl⟩
theorem p_combine (n : Nat) (how : Int32) (p : Nat) (s : cS) : ∃ s', fX2_combine n how p s = some (bi (!same (cB s n) (jn how (cB s n) (cB s p))), s') ∧ cB s' = va_up (cB s) n (jn how (cB s n) (cB s p)) ∧ s'.2.2 = s.2.2 := by
  unfold fX2_combine
  by_cases c0 : how = 0
  · subst c0
    rw [if_pos rfl, jn_0]
    exact cmb2 s n _ _ (pB_or (sL s n) (sH s n) (sL s p) (sH s p))
  rw [if_neg c0]
  by_cases c1 : how = 1
  · subst c1
    rw [if_pos rfl, jn_1]
    exact cmb2 s n _ _ (pB_and (sL s n) (sH s n) (sL s p) (sH s p))
  rw [if_neg c1]
  by_cases c2 : how = 2
  · subst c2
    rw [if_pos rfl, jn_2]
    exact cmb2 s n _ _ (pB_dif (sL s n) (sH s n) (sL s p) (sH s p))
  rw [if_neg c2]
  have e : jn how (cB s n) (cB s p) = fun k => (cB s n k ^^ cB s p k) := by
    funext k
    unfold jn
    rw [if_neg c0, if_neg c1, if_neg c2]
  rw [e]
  exact cmb2 s n _ _ (pB_xor (sL s n) (sH s n) (sL s p) (sH s p))
theorem two_if (a b : Int64) (c d : Int64) (B : Bool) (h : B = true ↔ a = b ∧ c = d) : (if lg_cmp a b = 0 then (if lg_cmp c d = 0 then (1 : Int32) else 0) else 0) = bi B := by
  by_cases x : a = b
  · rw [if_pos ((lg_cmp_eq _ _).mpr x)]
    by_cases y : c = d
    · rw [if_pos ((lg_cmp_eq _ _).mpr y), h.mpr ⟨x, y⟩]
      rfl
    · rw [if_neg (fun z => y ((lg_cmp_eq _ _).mp z)), ts_nt' (fun z => y (h.mp z).2)]
      rfl
  · rw [if_neg (fun z => x ((lg_cmp_eq _ _).mp z)), ts_nt' (fun z => x (h.mp z).1)]
    rfl
theorem pB_none (X Y : Int64) : (X = 0 ∧ Y = 0) ↔ ∀ k, pB X Y k = false := by
  rw [← pB_inj (l := X) (h := Y) (l' := 0) (h' := 0), pB_0]
  exact ⟨fun h k => congrFun h k, fun h => funext h⟩
theorem p_holdsAll (n p : Nat) (s : cS) : fX2_holdsAll n p s = bi (inn (cB s p) (cB s n)) := by
  unfold fX2_holdsAll
  apply two_if
  rw [pB_none, pB_dif]
  unfold inn
  rw [pd_iff]
  exact forall_congr' fun k => by
    show _ ↔ (pB (sL s p) (sH s p) k && !pB (sL s n) (sH s n) k) = false
    show (pB (sL s p) (sH s p) k = true → pB (sL s n) (sH s n) k = true) ↔ _
    cases pB (sL s p) (sH s p) k <;> cases pB (sL s n) (sH s n) k <;> decide
theorem p_sharesNone (n p : Nat) (s : cS) : fX2_sharesNone n p s = bi (apart (cB s n) (cB s p)) := by
  unfold fX2_sharesNone
  apply two_if
  rw [pB_none, pB_and]
  unfold apart
  rw [pd_iff]
  exact forall_congr' fun k => by
    show ¬ (pB (sL s n) (sH s n) k = true ∧ pB (sL s p) (sH s p) k = true) ↔ (pB (sL s n) (sH s n) k && pB (sL s p) (sH s p) k) = false
    cases pB (sL s p) (sH s p) k <;> cases pB (sL s n) (sH s n) k <;> decide
theorem p_sameAs (n p : Nat) (s : cS) : fX2_sameAs n p s = bi (same (cB s n) (cB s p)) := by
  unfold fX2_sameAs
  apply two_if
  unfold same cB
  rw [pd_iff, pB_inj]
/-! the lowest bit in which two words differ -/
theorem low_bit (a b : Int64) : ((a &&& (a ^^^ b)) &&& (-(a ^^^ b))) = 0 ↔ ¬ ∃ i, i < 64 ∧ a.toBitVec.getLsbD i = true ∧ b.toBitVec.getLsbD i = false ∧ ∀ j, j < i → a.toBitVec.getLsbD j = b.toBitVec.getLsbD j := by
  have key : ∀ i, i < 64 → (((a &&& (a ^^^ b)) &&& (-(a ^^^ b))).toBitVec.getLsbD i = true ↔ a.toBitVec.getLsbD i = true ∧ b.toBitVec.getLsbD i = false ∧ ∀ j, j < i → a.toBitVec.getLsbD j = b.toBitVec.getLsbD j) := by
    intro i hi
    rw [Int64.toBitVec_and, Int64.toBitVec_and, Int64.toBitVec_neg, BitVec.getLsbD_and, BitVec.getLsbD_and, BitVec.getLsbD_neg, Int64.toBitVec_xor, BitVec.getLsbD_xor]
    have hx : (decide (∃ j, j < i ∧ (a.toBitVec ^^^ b.toBitVec).getLsbD j = true)) = true ↔ ¬ ∀ j, j < i → a.toBitVec.getLsbD j = b.toBitVec.getLsbD j := by
      rw [decide_eq_true_iff]
      constructor
      · rintro ⟨j, hj, e⟩ h
        rw [BitVec.getLsbD_xor, h j hj, Bool.xor_self] at e
        exact Bool.noConfusion e
      · intro h
        apply Classical.byContradiction
        intro g
        apply h
        intro j hj
        apply Classical.byContradiction
        intro e
        apply g
        refine ⟨j, hj, ?_⟩
        rw [BitVec.getLsbD_xor]
        revert e
        cases a.toBitVec.getLsbD j <;> cases b.toBitVec.getLsbD j <;> simp
    have hi2 : decide (i < 64) = true := decide_eq_true hi
    rw [hi2, Bool.true_and]
    by_cases g : ∀ j, j < i → a.toBitVec.getLsbD j = b.toBitVec.getLsbD j
    · have e : (decide (∃ j, j < i ∧ (a.toBitVec ^^^ b.toBitVec).getLsbD j = true)) = false := ts_nt' (fun z => hx.mp z g)
      rw [e]
      cases a.toBitVec.getLsbD i <;> cases b.toBitVec.getLsbD i <;> first | (simp; done) | (simp; exact g)
    · rw [hx.mpr g]
      cases a.toBitVec.getLsbD i <;> cases b.toBitVec.getLsbD i <;> simp [g]
  constructor
  · rintro e ⟨i, hi, h⟩
    have := (key i hi).mpr h
    rw [e, bit_0] at this
    exact Bool.noConfusion this
  · intro h
    apply Int64.toBitVec_inj.mp
    apply BitVec.eq_of_getLsbD_eq
    intro i hi
    rw [bit_0]
    exact ts_nt' (fun z => h ⟨i, hi, (key i hi).mp z⟩)
theorem p_comesBefore (n p : Nat) (s : cS) : fX2_comesBefore n p s = bi (ahead (cB s n) (cB s p)) := by
  unfold fX2_comesBefore
  have lo : ∀ k, k < 64 → ∀ q, cB s q k = (sL s q).toBitVec.getLsbD k := fun k hk q => by
    unfold cB pB
    rw [if_pos hk]
  have hi : ∀ k, ∀ q, cB s q (k + 64) = (sH s q).toBitVec.getLsbD k := fun k q => by
    unfold cB pB
    rw [if_neg (by omega), Nat.add_sub_cancel]
  by_cases c : sL s n = sL s p
  · have c' : (sL s n ^^^ sL s p) = 0 := by rw [c, Int64.xor_self]
    rw [if_pos ((lg_cmp_eq _ _).mpr c')]
    have : ahead (cB s n) (cB s p) = true ↔ ¬ (((sH s n) &&& ((sH s n) ^^^ (sH s p))) &&& (-((sH s n) ^^^ (sH s p)))) = 0 := by
      unfold ahead
      rw [pd_iff, low_bit, Classical.not_not]
      constructor
      · rintro ⟨k, h1, h2, h3⟩
        by_cases z : k < 64
        · rw [lo k z n, c, ← lo k z p, h2] at h1
          exact Bool.noConfusion h1
        · obtain ⟨i, rfl⟩ : ∃ i, k = i + 64 := ⟨k - 64, by omega⟩
          rw [hi] at h1 h2
          refine ⟨i, ?_, h1, h2, fun j hj => ?_⟩
          · apply Classical.byContradiction
            intro z2
            rw [bit_big _ (by omega)] at h1
            exact Bool.noConfusion h1
          · have := h3 (j + 64) (by omega)
            rwa [hi, hi] at this
      · rintro ⟨i, h0, h1, h2, h3⟩
        refine ⟨i + 64, by rw [hi, h1], by rw [hi, h2], fun j hj => ?_⟩
        by_cases z : j < 64
        · rw [lo j z, lo j z, c]
        · obtain ⟨q, rfl⟩ : ∃ i, j = i + 64 := ⟨j - 64, by omega⟩
          rw [hi, hi]
          exact h3 q (by omega)
    by_cases z : (((sH s n) &&& ((sH s n) ^^^ (sH s p))) &&& (-((sH s n) ^^^ (sH s p)))) = 0
    · rw [if_pos ((lg_cmp_eq _ _).mpr z), ts_nt' (fun h => this.mp h z)]
      rfl
    · rw [if_neg (fun h => z ((lg_cmp_eq _ _).mp h)), this.mpr z]
      rfl
  · have c' : ¬ (sL s n ^^^ sL s p) = 0 := fun e => c (by
      apply Int64.toBitVec_inj.mp
      apply BitVec.eq_of_getLsbD_eq
      intro i hi
      have : (sL s n ^^^ sL s p).toBitVec.getLsbD i = false := by rw [e, bit_0]
      rw [Int64.toBitVec_xor, BitVec.getLsbD_xor] at this
      revert this
      cases (sL s n).toBitVec.getLsbD i <;> cases (sL s p).toBitVec.getLsbD i <;> simp)
    rw [if_neg (fun h => c' ((lg_cmp_eq _ _).mp h))]
    have : ahead (cB s n) (cB s p) = true ↔ ¬ (((sL s n) &&& ((sL s n) ^^^ (sL s p))) &&& (-((sL s n) ^^^ (sL s p)))) = 0 := by
      unfold ahead
      rw [pd_iff, low_bit, Classical.not_not]
      constructor
      · rintro ⟨k, h1, h2, h3⟩
        have z : k < 64 := by
          apply Classical.byContradiction
          intro z
          apply c
          apply Int64.toBitVec_inj.mp
          apply BitVec.eq_of_getLsbD_eq
          intro i hi
          rw [← lo i hi, ← lo i hi]
          exact h3 i (by omega)
        rw [lo k z] at h1 h2
        refine ⟨k, z, h1, h2, fun j hj => ?_⟩
        rw [← lo j (by omega), ← lo j (by omega)]
        exact h3 j hj
      · rintro ⟨i, h0, h1, h2, h3⟩
        refine ⟨i, by rw [lo i h0, h1], by rw [lo i h0, h2], fun j hj => ?_⟩
        rw [lo j (by omega), lo j (by omega)]
        exact h3 j hj
    by_cases z : (((sL s n) &&& ((sL s n) ^^^ (sL s p))) &&& (-((sL s n) ^^^ (sL s p)))) = 0
    · rw [if_pos ((lg_cmp_eq _ _).mpr z), ts_nt' (fun h => this.mp h z)]
      rfl
    · rw [if_neg (fun h => z ((lg_cmp_eq _ _).mp h)), this.mpr z]
      rfl
