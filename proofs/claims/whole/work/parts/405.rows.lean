/-! ===== the reference's rows ===== -/
theorem nb_bi (b : Bool) : vp_nar .boolean (bi b) = bi b := by cases b <;> decide
theorem nb_0 : vp_nar .boolean 0 = bi false := by decide
theorem nb_1 : vp_nar .boolean 1 = bi true := by decide
theorem bi_01 (b : Bool) : bi b = 0 ∨ bi b = 1 := by cases b <;> decide
theorem mR_vR (m : mS) (c k : Nat) (v : Int32) (r j : Nat) : mR (vR m c k v) r j = if r = c ∧ j = k then v else mR m r j := by
  unfold mR vR
  show va_up m.1 c (upd (m.1 c) k v) r j = _
  by_cases h : r = c
  · subst h
    rw [zu_at]
    by_cases e : j = k
    · subst e
      rw [pk_us, if_pos ⟨rfl, rfl⟩]
    · rw [pk_un e, if_neg (fun z => e z.2)]
  · rw [zu_ne _ h, if_neg (fun z => h z.1)]
theorem Vm_vR {m : mS} (V : Vm m) (c k : Nat) (b : Bool) : Vm (vR m c k (bi b)) := by
  intro r j
  rw [mR_vR]
  by_cases h : r = c ∧ j = k
  · rw [if_pos h]
    exact bi_01 b
  · rw [if_neg h]
    exact V r j
theorem mB_vR (m : mS) {c k : Nat} (hk : k < 102) (b : Bool) (r j : Nat) : mB (vR m c k (bi b)) r j = if r = c ∧ j = k then b else mB m r j := by
  unfold mB
  rw [mR_vR]
  by_cases h : r = c ∧ j = k
  · rw [if_pos h, if_pos h, h.2, decide_eq_true hk, Bool.true_and]
    cases b <;> decide
  · rw [if_neg h, if_neg h]
/-- a loop that writes one row, place by place, out of two rows -/
theorem row_loop (W : Nat → Int32 → mS → Option mS) (a b c : Nat) (G : Bool → Bool → Bool) (hend : ∀ f m, W (f + 1) (nI 102) m = some m) (hstep : ∀ f k m, k < 102 → Vm m → W (f + 1) (nI k) m = W f (nI (k + 1)) (vR m c k (bi (G (mB m a k) (mB m b k))))) {m : mS} (V : Vm m) : ∃ m', W 1100 0 m = some m' ∧ Vm m' ∧ mB m' = va_up (mB m) c (fun k => decide (k < 102) && G (mB m a k) (mB m b k)) ∧ m'.2 = m.2 := by
  have key : ∀ (d fuel k : Nat) (mk : mS), k + d = 102 → d < fuel → Vm mk → mk.2 = m.2 → (∀ r j, j < 102 → mB mk r j = if r = c ∧ j < k then G (mB m a j) (mB m b j) else mB m r j) → ∃ m', W fuel (nI k) mk = some m' ∧ Vm m' ∧ m'.2 = m.2 ∧ (∀ r j, j < 102 → mB m' r j = if r = c ∧ j < 102 then G (mB m a j) (mB m b j) else mB m r j) := by
    intro d
    induction d with
    | zero =>
      intro fuel k mk h hf V1 h2 h3
      obtain ⟨f, rfl⟩ : ∃ f, fuel = f + 1 := ⟨fuel - 1, by omega⟩
      have : k = 102 := by omega
      subst this
      exact ⟨mk, hend f mk, V1, h2, h3⟩
    | succ d ih =>
      intro fuel k mk h hf V1 h2 h3
      obtain ⟨f, rfl⟩ : ∃ f, fuel = f + 1 := ⟨fuel - 1, by omega⟩
      rw [hstep f k mk (by omega) V1]
      have ea : mB mk a k = mB m a k := by rw [h3 a k (by omega), if_neg (fun z => by omega)]
      have eb : mB mk b k = mB m b k := by rw [h3 b k (by omega), if_neg (fun z => by omega)]
      rw [ea, eb]
      refine ih f (k + 1) _ (by omega) (by omega) (Vm_vR V1 _ _ _) h2 (fun r j hj => ?_)
      rw [mB_vR mk (by omega), h3 r j hj]
      by_cases e : r = c
      · by_cases g : j = k
        · subst g
          rw [if_pos ⟨e, rfl⟩, if_pos ⟨e, by omega⟩]
        · rw [if_neg (fun z => g z.2)]
          by_cases l : j < k
          · rw [if_pos ⟨e, l⟩, if_pos ⟨e, by omega⟩]
          · rw [if_neg (fun z => l z.2), if_neg (fun z => by omega)]
      · rw [if_neg (fun z => e z.1), if_neg (fun z => e z.1), if_neg (fun z => e z.1)]
  obtain ⟨m', h1, h2, h3, h4⟩ := key 102 1100 0 m rfl (by decide) V rfl (fun r j _ => by rw [if_neg (fun z => by omega)])
  refine ⟨m', h1, h2, ?_, h3⟩
  funext r
  by_cases e : r = c
  · subst e
    rw [zu_at]
    funext k
    by_cases g : k < 102
    · rw [h4 r k g, if_pos ⟨rfl, g⟩, decide_eq_true g, Bool.true_and]
    · rw [mB_wf m' r k (by omega), decide_eq_false g, Bool.false_and]
  · rw [zu_ne _ e]
    funext k
    by_cases g : k < 102
    · rw [h4 r k g, if_neg (fun z => e z.1)]
    · rw [mB_wf m' r k (by omega), mB_wf m r k (by omega)]
theorem m_copies (a c : Nat) {m : mS} (V : Vm m) : ∃ m', fX8_copies a c m = some m' ∧ Vm m' ∧ mB m' = va_up (mB m) c (mB m a) ∧ m'.2 = m.2 := by
  obtain ⟨m', h1, h2, h3, h4⟩ := row_loop (fX8_copies_L2 a c) a a c (fun x _ => x) (fun f m => by rw [fX8_copies_L2, if_pos (show (102 : Int32) ≤ nI 102 from by decide)]) (fun f k m hk V => by
    rw [fX8_copies_L2, if_neg (ge_102 hk), if_pos (vinI hk (by decide)), if_pos (vinI hk (by decide)), nI_1, nI_clamp (by omega), mR_bi V hk, nb_bi]) V
  refine ⟨m', h1, h2, ?_, h4⟩
  rw [h3]
  refine congrArg (va_up (mB m) c) ?_
  funext k
  by_cases g : k < 102
  · rw [decide_eq_true g, Bool.true_and]
  · rw [mB_wf m a k (by omega), Bool.and_false]
theorem m_joins (a b : Nat) (how : Int32) (c : Nat) {m : mS} (V : Vm m) : ∃ m', fX8_joins a b how c m = some m' ∧ Vm m' ∧ mB m' = va_up (mB m) c (jn how (mB m a) (mB m b)) ∧ m'.2 = m.2 := by
  obtain ⟨m', h1, h2, h3, h4⟩ := row_loop (fX8_joins_L3 a b how c) a b c (fun x y => if how = 0 then x || y else if how = 1 then x && y else if how = 2 then x && !y else (x ^^ y)) (fun f m => by rw [fX8_joins_L3, if_pos (show (102 : Int32) ≤ nI 102 from by decide)]) (fun f k m hk V => by
    rw [fX8_joins_L3, if_neg (ge_102 hk), nI_1, nI_clamp (by omega), nb_0, nb_1]
    simp only [if_pos (vinI hk (show 102 < 2 ^ 31 from by decide)), mB_0 hk, mB_eq V hk]
    by_cases c0 : how = 0
    · rw [if_pos c0, if_pos c0]
      cases mB m a k <;> cases mB m b k <;> rfl
    rw [if_neg c0, if_neg c0]
    by_cases c1 : how = 1
    · rw [if_pos c1, if_pos c1]
      cases mB m a k <;> cases mB m b k <;> rfl
    rw [if_neg c1, if_neg c1]
    by_cases c2 : how = 2
    · rw [if_pos c2, if_pos c2]
      cases mB m a k <;> cases mB m b k <;> rfl
    rw [if_neg c2, if_neg c2]
    cases mB m a k <;> cases mB m b k <;> rfl) V
  refine ⟨m', h1, h2, ?_, h4⟩
  rw [h3]
  refine congrArg (va_up (mB m) c) ?_
  funext k
  by_cases g : k < 102
  · rw [decide_eq_true g, Bool.true_and]
    rfl
  · rw [decide_eq_false g, Bool.false_and]
    exact (jn_wf (mB_wf m a) (mB_wf m b) k (by omega)).symm
theorem m_sizeOf_L (a : Nat) (m : mS) : ∀ (d fuel k : Nat), k + d = 102 → d < fuel → fX8_sizeOf_L4 a fuel (nI (fb_ct (mB m a) k)) (nI k) m = some (nI (sz (mB m a)), m) := by
  intro d
  induction d with
  | zero =>
    intro fuel k h hf
    obtain ⟨f, rfl⟩ : ∃ f, fuel = f + 1 := ⟨fuel - 1, by omega⟩
    have : k = 102 := by omega
    subst this
    rw [fX8_sizeOf_L4, if_pos (show (102 : Int32) ≤ nI 102 from by decide)]
    rfl
  | succ d ih =>
    intro fuel k h hf
    obtain ⟨f, rfl⟩ : ∃ f, fuel = f + 1 := ⟨fuel - 1, by omega⟩
    have hk : k < 102 := by omega
    rw [fX8_sizeOf_L4, if_neg (ge_102 hk), if_pos (vinI hk (by decide)), nI_clamp (by omega), if_boolf (mB_0 hk), nI_1, nI_1, Int32.add_zero]
    have := ih f (k + 1) (by omega) (by omega)
    rw [ct_succ] at this
    cases c : mB m a k
    · rw [c] at this
      exact this
    · rw [c] at this
      exact this
theorem m_sizeOf (a : Nat) (m : mS) : fX8_sizeOf a m = some (nI (sz (mB m a)), m) := m_sizeOf_L a m 102 1100 0 rfl (by decide)
theorem memberOf_k : ∀ k, k < 102 → 0 < k → (if nI k = 0 then (100 : Int32) else nI k - 50 - 1) = nI k - 51 := by decide +kernel
theorem m_sumOf_L (a : Nat) (m : mS) : ∀ (d fuel j : Nat), j + 1 + d = 102 → d < fuel → fX8_sumOf_L4 a fuel (sumI (mB m a) j) (nI (j + 1)) m = some (sumI (mB m a) 101, m) := by
  intro d
  induction d with
  | zero =>
    intro fuel j h hf
    obtain ⟨f, rfl⟩ : ∃ f, fuel = f + 1 := ⟨fuel - 1, by omega⟩
    have : j = 101 := by omega
    subst this
    rw [fX8_sumOf_L4, if_pos (show (102 : Int32) ≤ nI (101 + 1) from by decide)]
  | succ d ih =>
    intro fuel j h hf
    obtain ⟨f, rfl⟩ : ∃ f, fuel = f + 1 := ⟨fuel - 1, by omega⟩
    have hk : j + 1 < 102 := by omega
    rw [fX8_sumOf_L4, if_neg (ge_102 hk), if_pos (vinI hk (by decide)), nI_clamp (by omega), if_boolf (mB_0 hk), nI_1 (j + 1), Int32.add_zero]
    have e : sumI (mB m a) (j + 1) = if mB m a (j + 1) then sumI (mB m a) j + (nI (j + 1) - 51) else sumI (mB m a) j := rfl
    have := ih f (j + 1) (by omega) (by omega)
    rw [e] at this
    have e2 : fX8_memberOf (nI (j + 1)) m = nI (j + 1) - 51 := memberOf_k (j + 1) hk (by omega)
    rw [e2]
    cases c : mB m a (j + 1)
    · rw [c] at this
      exact this
    · rw [c] at this
      exact this
theorem m_sumOf (a : Nat) (m : mS) : fX8_sumOf a m = some (sumI (mB m a) 101, m) := m_sumOf_L a m 101 1100 0 rfl (by decide)
theorem m_first_L (a b : Nat) {m : mS} (V : Vm m) : ∀ (d fuel k : Nat), k + d = 102 → d < fuel → (∀ j, j < k → mB m a j = mB m b j) → (∃ i, i < 102 ∧ mB m a i ≠ mB m b i ∧ (∀ j, j < i → mB m a j = mB m b j) ∧ fX8_firstOther_L2 a b fuel (nI k) m = some (nI i, m)) ∨ (mB m a = mB m b ∧ fX8_firstOther_L2 a b fuel (nI k) m = some (-1, m)) := by
  intro d
  induction d with
  | zero =>
    intro fuel k h hf hk
    obtain ⟨f, rfl⟩ : ∃ f, fuel = f + 1 := ⟨fuel - 1, by omega⟩
    have : k = 102 := by omega
    subst this
    right
    rw [fX8_firstOther_L2, if_pos (show (102 : Int32) ≤ nI 102 from by decide)]
    exact ⟨BS_ext (mB_wf m a) (mB_wf m b) hk, rfl⟩
  | succ d ih =>
    intro fuel k h hf hk
    obtain ⟨f, rfl⟩ : ∃ f, fuel = f + 1 := ⟨fuel - 1, by omega⟩
    have hk2 : k < 102 := by omega
    rw [fX8_firstOther_L2, if_neg (ge_102 hk2), if_pos (vinI hk2 (by decide)), if_pos (vinI hk2 (by decide)), nI_clamp (by omega), nI_1]
    by_cases e : mB m a k = mB m b k
    · rw [if_pos ((mB_eq V hk2).mpr e)]
      exact ih f (k + 1) (by omega) (by omega) (fun j hj => if g : j = k then g ▸ e else hk j (by omega))
    · rw [if_neg (fun z => e ((mB_eq V hk2).mp z))]
      exact Or.inl ⟨k, hk2, e, hk, rfl⟩
theorem m_firstOther (a b : Nat) {m : mS} (V : Vm m) : (∃ i, i < 102 ∧ mB m a i ≠ mB m b i ∧ (∀ j, j < i → mB m a j = mB m b j) ∧ fX8_firstOther a b m = some (nI i, m)) ∨ (mB m a = mB m b ∧ fX8_firstOther a b m = some (-1, m)) := m_first_L a b V 102 1100 0 rfl (by decide) (fun j hj => by omega)
theorem nI_m1 {k : Nat} (h : k < 2 ^ 31) : ¬ nI k = -1 := fun e => by
  have := congrArg Int32.toInt e
  rw [nI_toInt h] at this
  have e2 : (-1 : Int32).toInt = -1 := by decide
  omega
theorem m_areSame (a b : Nat) {m : mS} (V : Vm m) : fX8_areSame a b m = some (bi (same (mB m a) (mB m b)), m) := by
  unfold fX8_areSame
  rcases m_firstOther a b V with ⟨i, h1, h2, h3, h4⟩ | ⟨h1, h2⟩
  · rw [h4]
    show (if nI i = -1 then _ else _) = _
    rw [if_neg (nI_m1 (by omega)), ts_nt' (x := same (mB m a) (mB m b)) (fun z => h2 (by rw [pd_iff.mp z]))]
    rfl
  · rw [h2]
    show (if (-1 : Int32) = -1 then some ((1 : Int32), m) else some (0, m)) = _
    rw [if_pos rfl, show same (mB m a) (mB m b) = true from pd_iff.mpr h1]
    rfl
theorem m_isAhead (a b : Nat) {m : mS} (V : Vm m) : fX8_isAhead a b m = some (bi (ahead (mB m a) (mB m b)), m) := by
  unfold fX8_isAhead
  rcases m_firstOther a b V with ⟨i, h1, h2, h3, h4⟩ | ⟨h1, h2⟩
  · rw [h4]
    show (if nI i = -1 then _ else if vin (nI i) 102 = true then (if mR m a (nI i).toNatClampNeg = 0 then _ else _) else _) = _
    rw [if_neg (nI_m1 (by omega)), if_pos (vinI h1 (by decide)), nI_clamp (by omega), if_boolf (mB_0 h1)]
    cases c : mB m a i
    · rw [ts_nt' (x := ahead (mB m a) (mB m b)) (fun z => ?_)]
      · rfl
      · obtain ⟨k, q1, q2, q3⟩ := pd_iff.mp z
        rcases Nat.lt_trichotomy i k with g | g | g
        · exact h2 (q3 i g)
        · subst g
          rw [c] at q1
          exact Bool.noConfusion q1
        · have := h3 k g
          rw [q1, q2] at this
          exact Bool.noConfusion this
    · have : mB m b i = false := by
        revert h2
        rw [c]
        cases mB m b i <;> simp
      rw [show ahead (mB m a) (mB m b) = true from pd_iff.mpr ⟨i, c, this, h3⟩]
      rfl
  · rw [h2]
    simp only [Option.bind_some, if_true]
    rw [ts_nt' (x := ahead (mB m a) (mB m b)) (fun z => ?_)]
    · rfl
    · obtain ⟨k, q1, q2, q3⟩ := pd_iff.mp z
      rw [h1, q2] at q1
      exact Bool.noConfusion q1
theorem m_lies_L (a b : Nat) (m : mS) : ∀ (d fuel k : Nat), k + d = 102 → d < fuel → (∀ j, j < k → mB m a j = true → mB m b j = true) → fX8_lies_L2 a b fuel (nI k) m = some (bi (inn (mB m a) (mB m b)), m) := by
  intro d
  induction d with
  | zero =>
    intro fuel k h hf hk
    obtain ⟨f, rfl⟩ : ∃ f, fuel = f + 1 := ⟨fuel - 1, by omega⟩
    have : k = 102 := by omega
    subst this
    rw [fX8_lies_L2, if_pos (show (102 : Int32) ≤ nI 102 from by decide)]
    rw [show inn (mB m a) (mB m b) = true from pd_iff.mpr (fun j hj => by
      by_cases g : j < 102
      · exact hk j g hj
      · rw [mB_wf m a j (by omega)] at hj
        exact Bool.noConfusion hj)]
    rfl
  | succ d ih =>
    intro fuel k h hf hk
    obtain ⟨f, rfl⟩ : ∃ f, fuel = f + 1 := ⟨fuel - 1, by omega⟩
    have hk2 : k < 102 := by omega
    rw [fX8_lies_L2, if_neg (ge_102 hk2), if_pos (vinI hk2 (by decide)), if_pos (vinI hk2 (by decide)), nI_clamp (by omega), nI_1, if_boolf (mB_0 hk2), if_boolf (mB_0 hk2)]
    cases c : mB m a k
    · rw [if_neg (fun z => Bool.noConfusion z)]
      exact ih f (k + 1) (by omega) (by omega) (fun j hj hz => if g : j = k then (by rw [g, c] at hz; exact Bool.noConfusion hz) else hk j (by omega) hz)
    · rw [if_pos rfl]
      cases e : mB m b k
      · rw [if_neg (fun z => Bool.noConfusion z), ts_nt' (x := inn (mB m a) (mB m b)) (fun z => by
          have := pd_iff.mp z k c
          rw [e] at this
          exact Bool.noConfusion this)]
        rfl
      · rw [if_pos rfl]
        exact ih f (k + 1) (by omega) (by omega) (fun j hj hz => if g : j = k then g ▸ e else hk j (by omega) hz)
theorem m_lies (a b : Nat) (m : mS) : fX8_lies a b m = some (bi (inn (mB m a) (mB m b)), m) := m_lies_L a b m 102 1100 0 rfl (by decide) (fun j hj => by omega)
