/-! ===== spread, isClosed, isChain ===== -/
theorem p_fbecome {F G c : Nat} (hF : F < 2) (hG : G < 2) (hne : F ≠ G) (hc : c ≤ 7) {s : cS} (W : Wf s) (hI : sI s G = nI c) : ∃ s', fX0_become F G s = some s' ∧ Wf s' ∧ (∀ j, j < c → cB s' (8 + 8 * F + j) = cB s (8 + 8 * G + j)) ∧ (∀ n, n < 8 + 8 * F ∨ 15 + 8 * F ≤ n → cB s' n = cB s n) ∧ (∀ k, sI s' k = if k = F then nI c else sI s k) ∧ sT s' = sT s := by
  have key : ∀ (d fuel k : Nat) (t : cS), k + d = c → d < fuel → Wf t → sI t F = nI c → (∀ j, j < k → cB t (8 + 8 * F + j) = cB s (8 + 8 * G + j)) → (∀ n, n < 8 + 8 * F ∨ 15 + 8 * F ≤ n → cB t n = cB s n) → ∃ s', fX0_become_L10 F G fuel (nI k) t = some s' ∧ Wf s' ∧ (∀ j, j < c → cB s' (8 + 8 * F + j) = cB s (8 + 8 * G + j)) ∧ (∀ n, n < 8 + 8 * F ∨ 15 + 8 * F ≤ n → cB s' n = cB s n) ∧ s'.2.2 = t.2.2 := by
    intro d
    induction d with
    | zero =>
      intro fuel k t h hf W1 hI1 h1 h2
      obtain ⟨l, rfl⟩ : ∃ l, fuel = l + 1 := ⟨fuel - 1, by omega⟩
      rw [fX0_become_L10, hI1, if_pos (nI_le (by omega) (by omega))]
      exact ⟨t, rfl, W1, fun j hj => h1 j (by omega), h2, rfl⟩
    | succ d ih =>
      intro fuel k t h hf W1 hI1 h1 h2
      obtain ⟨l, rfl⟩ : ∃ l, fuel = l + 1 := ⟨fuel - 1, by omega⟩
      have k7 : k < 7 := by omega
      rw [fX0_become_L10, hI1, if_neg (nI_ge (by omega) (by omega)), if_pos (vin7 k7), if_pos (vin7 k7), cl7 k7, nI_1]
      obtain ⟨t1, e1, e2, e3⟩ := p_become (8 + 8 * F + k) (8 + 8 * G + k) t
      rw [e1]
      simp only [Option.bind_some]
      obtain ⟨s', r1, r2, r3, r4, r5⟩ := ih l (k + 1) t1 (by omega) (by omega) (Wf_up W1 (W1 _) e2) ((sI_eq e3 F).trans hI1) (fun j hj => by
        rw [e2]
        by_cases z : j = k
        · rw [z, zu_at]
          exact h2 _ (by omega)
        · rw [zu_ne _ (by omega)]
          exact h1 j (by omega)) (fun n hn => by
        rw [e2, zu_ne _ (by omega)]
        exact h2 n hn)
      exact ⟨s', r1, r2, r3, r4, r5.trans e3⟩
  obtain ⟨s', r1, r2, r3, r4, r5⟩ := key c 1100 0 (uI s F (sI s G)) (by omega) (by omega) W (by rw [sI_at, hI]) (fun j hj => by omega) (fun n _ => rfl)
  refine ⟨s', r1, r2, r3, r4, fun k => ?_, (sT_eq (s := uI s F (sI s G)) r5)⟩
  rw [sI_eq r5, b_sI_uI, hI]
theorem p_make {F i j : Nat} (how : Int32) (hi : i < 7) (hj : j < 7) (s : cS) : ∃ s', fX0_make F how (nI i) (nI j) s = some s' ∧ cB s' = va_up (cB s) (15 + 8 * F) (jn how (cB s (8 + 8 * F + i)) (cB s (8 + 8 * F + j))) ∧ s'.2.2 = s.2.2 := by
  unfold fX0_make
  obtain ⟨s1, e1, e2, e3⟩ := p_become (15 + 8 * F) (8 + 8 * F + i) s
  obtain ⟨s2, g1, g2, g3⟩ := p_combine (15 + 8 * F) how (8 + 8 * F + j) s1
  refine ⟨s2, ?_, ?_, g3.trans e3⟩
  · simp only [vin7 hi, vin7 hj, cl7 hi, cl7 hj, if_true, e1, g1, Option.bind_some]
  · rw [g2, e2, zu_twice, zu_at, zu_ne _ (by omega)]
/-- while the two spread -/
def RS (a0 : cS) (m0 : mS) (c n : Nat) (a : cS) (m : mS) : Prop := Wf a ∧ Vm m ∧ n ≤ 7 ∧ sI a 0 = nI c ∧ mI m 1 = nI c ∧ sI a 1 = nI n ∧ mI m 2 = nI n ∧ (∀ j, j < c → cB a (8 + 8 * 0 + j) = mB m (9 + 7 * 0 + j)) ∧ (∀ j, j < n → cB a (8 + 8 * 1 + j) = mB m (9 + 7 * 1 + j)) ∧ aeq a0 a ∧ meq m0 m ∧ mI m 0 = mI m0 0
theorem spread_L {a0 : cS} {m0 : mS} (how : Int32) {c i : Nat} (hc : c ≤ 7) (hi : i < c) (kc : cS → Option (Int32 × cS)) (km : mS → Option (Int32 × mS)) : ∀ (d fuel j n : Nat) (a : cS) (m : mS), j + d = c → d < fuel → RS a0 m0 c n a m → (∃ a' m' n', fX0_spreadInto_L13 0 1 how (nI i) kc fuel (nI j) a = some (0, a') ∧ fX8_spreads_L51 how (nI i) km fuel (nI j) m = some (0, m') ∧ RS a0 m0 c n' a' m') ∨ (∃ a' m' n', fX0_spreadInto_L13 0 1 how (nI i) kc fuel (nI j) a = kc a' ∧ fX8_spreads_L51 how (nI i) km fuel (nI j) m = km m' ∧ RS a0 m0 c n' a' m') := by
  intro d
  induction d with
  | zero =>
    intro fuel j n a m h hf hR
    obtain ⟨l, rfl⟩ : ∃ l, fuel = l + 1 := ⟨fuel - 1, by omega⟩
    right
    obtain ⟨_, _, _, r4, r5, _⟩ := id hR
    rw [fX0_spreadInto_L13, fX8_spreads_L51, r4, r5, if_pos (nI_le (by omega) (by omega)), if_pos (nI_le (by omega) (by omega))]
    exact ⟨a, m, n, rfl, rfl, hR⟩
  | succ d ih =>
    intro fuel j n a m h hf hR
    obtain ⟨l, rfl⟩ : ∃ l, fuel = l + 1 := ⟨fuel - 1, by omega⟩
    obtain ⟨W, V, n7, r4, r5, r6, r7, r8, r9, r10, r11, r12⟩ := id hR
    have i7 : i < 7 := by omega
    have j7 : j < 7 := by omega
    obtain ⟨m1, k1, k2, k3, k4⟩ := m_joins (9 + 7 * 0 + i) (9 + 7 * 0 + j) how 8 V
    have hm1 : meq m0 m1 := meq_trans r11 (meq_up (Or.inr rfl) k3 k4)
    have x8 : mB m1 8 = jn how (cB a (8 + 8 * 0 + i)) (cB a (8 + 8 * 0 + j)) := by rw [k3, zu_at, r8 i hi, r8 j (by omega)]
    rw [fX0_spreadInto_L13, fX8_spreads_L51, r4, r5, if_neg (nI_ge (by omega) (by omega)), if_neg (nI_ge (by omega) (by omega)), if_pos (vin7 i7), if_pos (vin7 j7), cl7 i7, cl7 j7, k1, nI_1]
    simp only [Option.bind_some]
    by_cases e : i = j
    · rw [if_pos (by rw [e]), if_pos (by rw [e])]
      exact ih l (j + 1) n a m1 (by omega) (by omega) ⟨W, k2, n7, r4, (mI_eq k4 1).trans r5, r6, (mI_eq k4 2).trans r7, fun q hq => by rw [k3, zu_ne _ (by omega)]; exact r8 q hq, fun q hq => by rw [k3, zu_ne _ (by omega)]; exact r9 q hq, r10, hm1, (mI_eq k4 0).trans r12⟩
    · have ne : ¬ nI i = nI j := fun z => e ((nI_eq (by omega) (by omega)).mp z)
      rw [if_neg ne, if_neg ne]
      obtain ⟨a1, p1, p2, p3⟩ := p_make (F := 0) how i7 j7 a
      have W1 : Wf a1 := Wf_up W (jn_wf (W _) (W _)) p2
      have y15 : cB a1 (15 + 8 * 0) = mB m1 8 := by rw [p2, zu_at, x8]
      have fe : fi (fun q => mB m1 (9 + 7 * 1 + q)) (mB m1 8) n 0 = fi (fun q => cB a1 (8 + 8 * 1 + q)) (cB a1 (15 + 8 * 0)) n 0 := by
        rw [y15]
        refine fi_cong n 0 (fun q _ hq => ?_)
        show mB m1 (9 + 7 * 1 + q) = cB a1 (8 + 8 * 1 + q)
        rw [k3, zu_ne _ (by omega), p2, zu_ne _ (by omega)]
        exact (r9 q (by omega)).symm
      have em : mI m1 2 = nI n := (mI_eq k4 2).trans r7
      rw [p1, em, m_find 1 8 k2 n7, fe]
      simp only [Option.bind_some, em]
      have hR1 : RS a0 m0 c n a1 m1 := ⟨W1, k2, n7, (sI_eq p3 0).trans r4, (mI_eq k4 1).trans r5, (sI_eq p3 1).trans r6, (mI_eq k4 2).trans r7, fun q hq => by rw [k3, zu_ne _ (by omega), p2, zu_ne _ (by omega)]; exact r8 q hq, fun q hq => by rw [k3, zu_ne _ (by omega), p2, zu_ne _ (by omega)]; exact r9 q hq, aeq_trans r10 (aeq_up (by omega) p2 p3), hm1, (mI_eq k4 0).trans r12⟩
      rcases p_enter (F := 1) (p := 15 + 8 * 0) (c := n) (Or.inl (by omega)) n7 W1 ((sI_eq p3 1).trans r6) with ⟨q1, q2⟩ | ⟨q1, q2, q3⟩ | ⟨q1, q2, a2, q3, q4, q5, q6, q7, q8⟩
      · rw [if_neg q1, q2]
        simp only [one_0, Option.bind_some]
        exact ih l (j + 1) n a1 m1 (by omega) (by omega) hR1
      · left
        subst q2
        rw [if_pos q1, q3, if_pos (show nI 7 = 7 from rfl)]
        exact ⟨a1, m1, 7, by simp only [if_true, Option.bind_some], rfl, hR1⟩
      · obtain ⟨m2, t1, t2, t3, t4, t5⟩ := m_inserts 1 (r := 8) (c := n) (Or.inl (by omega)) q2 k2
        rw [if_pos q1, q3, if_neg (fun z => by have := (nI_eq (a := n) (b := 7) (by omega) (by omega)).mp z; omega), t1]
        simp only [one_0, Option.bind_some]
        refine ih l (j + 1) (n + 1) a2 _ (by omega) (by omega) ⟨q4, t2, by omega, ?_, ?_, ?_, ?_, fun q hq => ?_, fun q hq => ?_, ?_, ?_, ?_⟩
        · rw [q7 0, if_neg (by decide)]
          exact (sI_eq p3 0).trans r4
        · rw [b_mI_vI, if_neg (by decide), mI_eq t5]
          exact (mI_eq k4 1).trans r5
        · rw [q7 1, if_pos rfl]
        · rw [b_mI_vI, if_pos rfl, mI_eq t5, show mI m1 2 = nI n from (mI_eq k4 2).trans r7, nI_1]
        · rw [mB_vI, t4 _ (Or.inl (by omega)), q6 _ (Or.inl (by omega)), k3, zu_ne _ (by omega), p2, zu_ne _ (by omega)]
          exact r8 q hq
        · rw [mB_vI, t3 q (by omega), q5 q (by omega), y15]
          refine ins_cong (fun w hw => ?_) (by omega)
          show cB a1 (8 + 8 * 1 + w) = mB m1 (9 + 7 * 1 + w)
          rw [k3, zu_ne _ (by omega), p2, zu_ne _ (by omega)]
          exact r9 w hw
        · refine aeq_trans r10 (aeq_trans (aeq_up (by omega) p2 p3) ⟨fun w hw => q6 w (Or.inl (by omega)), ?_, ?_, q8⟩)
          · rw [q7 0, if_neg (by decide)]
          · rw [q7 2, if_neg (by decide)]
        · refine meq_trans hm1 ⟨fun w hw _ => t4 w (Or.inl (by omega)), ?_, ?_, (mT_eq (m' := m2) t5)⟩
          · rw [b_mI_vI, if_neg (by decide), mI_eq t5]
          · rw [b_mI_vI, if_neg (by decide), mI_eq t5]
        · rw [b_mI_vI, if_neg (by decide), mI_eq t5]
          exact (mI_eq k4 0).trans r12
theorem spread_L2 {a0 : cS} {m0 : mS} (how : Int32) {c : Nat} (hc : c ≤ 7) : ∀ (d fuel i n : Nat) (a : cS) (m : mS), i + d = c → d < fuel → RS a0 m0 c n a m → ∃ r a' m' n', fX0_spreadInto_L2 0 1 how fuel (nI i) a = some (r, a') ∧ fX8_spreads_L41 how fuel (nI i) m = some (r, m') ∧ RS a0 m0 c n' a' m' := by
  intro d
  induction d with
  | zero =>
    intro fuel i n a m h hf hR
    obtain ⟨l, rfl⟩ : ∃ l, fuel = l + 1 := ⟨fuel - 1, by omega⟩
    obtain ⟨_, _, _, r4, r5, _⟩ := id hR
    rw [fX0_spreadInto_L2, fX8_spreads_L41, r4, r5, if_pos (nI_le (by omega) (by omega)), if_pos (nI_le (by omega) (by omega))]
    exact ⟨1, a, m, n, rfl, rfl, hR⟩
  | succ d ih =>
    intro fuel i n a m h hf hR
    obtain ⟨l, rfl⟩ : ∃ l, fuel = l + 1 := ⟨fuel - 1, by omega⟩
    obtain ⟨_, _, _, r4, r5, _⟩ := id hR
    rw [fX0_spreadInto_L2, fX8_spreads_L41, r4, r5, if_neg (nI_ge (by omega) (by omega)), if_neg (nI_ge (by omega) (by omega)), nI_1]
    rcases spread_L how hc (show i < c by omega) (fun s3 => fX0_spreadInto_L2 0 1 how l (nI (i + 1)) s3) (fun s10 => fX8_spreads_L41 how l (nI (i + 1)) s10) c 1100 0 n a m (by omega) (by omega) hR with ⟨a', m', n', h1, h2, h3⟩ | ⟨a', m', n', h1, h2, h3⟩
    · exact ⟨0, a', m', n', h1, h2, h3⟩
    · obtain ⟨r, a2, m2, n2, g1, g2, g3⟩ := ih l (i + 1) n' a' m' (by omega) (by omega) h3
      exact ⟨r, a2, m2, n2, h1.trans g1, h2.trans g2, g3⟩
theorem m_spreads_0 (how : Int32) (k0 : mS → Option (Int32 × mS)) {c : Nat} (hc : c ≤ 7) (m0 : mS) : ∀ (d fuel k : Nat) (m : mS), k + d = c → d < fuel → Vm m → mI m 1 = nI c → m.2 = m0.2 → (∀ j, j < k → mB m (9 + 7 * 1 + j) = mB m0 (9 + 7 * 0 + j)) → (∀ r, r < 16 → mB m r = mB m0 r) → ∃ m', fX8_spreads_L2 how k0 fuel (nI k) m = k0 m' ∧ Vm m' ∧ m'.2 = m0.2 ∧ (∀ j, j < c → mB m' (9 + 7 * 1 + j) = mB m0 (9 + 7 * 0 + j)) ∧ (∀ r, r < 16 → mB m' r = mB m0 r) := by
  intro d
  induction d with
  | zero =>
    intro fuel k m h hf V hI h2 h3 h4
    obtain ⟨l, rfl⟩ : ∃ l, fuel = l + 1 := ⟨fuel - 1, by omega⟩
    rw [fX8_spreads_L2, hI, if_pos (nI_le (by omega) (by omega))]
    exact ⟨m, rfl, V, h2, fun j hj => h3 j (by omega), h4⟩
  | succ d ih =>
    intro fuel k m h hf V hI h2 h3 h4
    obtain ⟨l, rfl⟩ : ∃ l, fuel = l + 1 := ⟨fuel - 1, by omega⟩
    have k7 : k < 7 := by omega
    obtain ⟨m1, k1, k2, k3, k4⟩ := m_copies (9 + 7 * 0 + k) (9 + 7 * 1 + k) V
    rw [fX8_spreads_L2, hI, if_neg (nI_ge (by omega) (by omega)), if_pos (vin7 k7), if_pos (vin7 k7), cl7 k7, k1, nI_1]
    simp only [Option.bind_some]
    refine ih l (k + 1) m1 (by omega) (by omega) k2 ((mI_eq k4 1).trans hI) (k4.trans h2) (fun j hj => ?_) (fun r hr => ?_)
    · rw [k3]
      by_cases z : j = k
      · rw [z, zu_at]
        exact h4 _ (by omega)
      · rw [zu_ne _ (by omega)]
        exact h3 j (by omega)
    · rw [k3, zu_ne _ (by omega)]
      exact h4 r hr
theorem m_spread_L38 (x : Int32) {n : Nat} (hn : n ≤ 7) (m0 : mS) : ∀ (d fuel k : Nat) (m : mS), k + d = n → d < fuel → Vm m → mI m 2 = nI n → m.2 = m0.2 → (∀ j, j < k → mB m (9 + 7 * 0 + j) = mB m0 (9 + 7 * 1 + j)) → (∀ r, r < 9 ∨ 16 ≤ r → mB m r = mB m0 r) → ∃ m', fX8_spread_L38 x fuel (nI k) m = some (x, vI m' 1 (nI n)) ∧ Vm m' ∧ m'.2 = m0.2 ∧ (∀ j, j < n → mB m' (9 + 7 * 0 + j) = mB m0 (9 + 7 * 1 + j)) ∧ (∀ r, r < 9 ∨ 16 ≤ r → mB m' r = mB m0 r) := by
  intro d
  induction d with
  | zero =>
    intro fuel k m h hf V hI h2 h3 h4
    obtain ⟨l, rfl⟩ : ∃ l, fuel = l + 1 := ⟨fuel - 1, by omega⟩
    rw [fX8_spread_L38, hI, if_pos (nI_le (by omega) (by omega))]
    exact ⟨m, rfl, V, h2, fun j hj => h3 j (by omega), h4⟩
  | succ d ih =>
    intro fuel k m h hf V hI h2 h3 h4
    obtain ⟨l, rfl⟩ : ∃ l, fuel = l + 1 := ⟨fuel - 1, by omega⟩
    have k7 : k < 7 := by omega
    obtain ⟨m1, k1, k2, k3, k4⟩ := m_copies (9 + 7 * 1 + k) (9 + 7 * 0 + k) V
    rw [fX8_spread_L38, hI, if_neg (nI_ge (by omega) (by omega)), if_pos (vin7 k7), if_pos (vin7 k7), cl7 k7, k1, nI_1]
    simp only [Option.bind_some]
    refine ih l (k + 1) m1 (by omega) (by omega) k2 ((mI_eq k4 2).trans hI) (k4.trans h2) (fun j hj => ?_) (fun r hr => ?_)
    · rw [k3]
      by_cases z : j = k
      · rw [z, zu_at]
        exact h4 _ (Or.inr (by omega))
      · rw [zu_ne _ (by omega)]
        exact h3 j (by omega)
    · rw [k3, zu_ne _ (by omega)]
      exact h4 r hr
/-- the reference begins to spread -/
theorem m_spreads_begin (how : Int32) {c : Nat} (hc : c ≤ 7) {m : mS} (V : Vm m) (f2 : mI m 1 = nI c) : ∃ m', fX8_spreads how m = fX8_spreads_L41 how 1100 0 m' ∧ Vm m' ∧ mI m' 1 = nI c ∧ mI m' 2 = nI c ∧ mI m' 0 = mI m 0 ∧ (∀ j, j < c → mB m' (9 + 7 * 1 + j) = mB m (9 + 7 * 0 + j)) ∧ (∀ r, r < 16 → mB m' r = mB m r) ∧ meq m m' := by
  unfold fX8_spreads
  obtain ⟨m1, k1, k2, k3, k4, k5⟩ := m_spreads_0 how (fun s4 => fX8_spreads_L41 how 1100 (0 : Int32) (vI s4 2 (mI s4 1))) hc m c 1100 0 m (by omega) (by omega) V f2 rfl (fun j hj => by omega) (fun r _ => rfl)
  refine ⟨vI m1 2 (mI m1 1), k1, k2, ?_, ?_, ?_, k4, k5, fun r hr _ => k5 r hr, ?_, ?_, (mT_eq (m' := m1) k3)⟩
  · rw [b_mI_vI, if_neg (by decide), mI_eq k3]
    exact f2
  · rw [b_mI_vI, if_pos rfl, mI_eq k3]
    exact f2
  · rw [b_mI_vI, if_neg (by decide), mI_eq k3]
  · rw [b_mI_vI, if_neg (by decide), mI_eq k3]
  · rw [b_mI_vI, if_neg (by decide), mI_eq k3]
theorem g_spread {a : cS} {m : mS} {ee : Nat} (h : Rel a m) (p : Int32) : Meets 2 ee (fX7_spread p a) (fX8_spread p m) := by
  rcases rng p 0 2 with ⟨s1, s2, _, _⟩ | ⟨s1, s2⟩
  · obtain ⟨W, V, hs, ⟨c, hc, f1, f2, f3⟩, ht⟩ := id h
    obtain ⟨b, b1, b2, b3, b4, b5, b6⟩ := p_fbecome (F := 1) (G := 0) (by decide) (by decide) (by decide) hc W f1
    obtain ⟨m1, k1, k2, k3, k4, k5, k6, k7, k8⟩ := m_spreads_begin p hc (Vm_vI V 0 0) f2
    have ab : aeq a b := ⟨fun n hn => b4 n (Or.inl (by omega)), by rw [b5 0, if_neg (by decide)], by rw [b5 2, if_neg (by decide)], b6⟩
    have hRS : RS a (vI m 0 0) c c b m1 := ⟨b2, k2, hc, by rw [b5 0, if_neg (by decide)]; exact f1, k3, by rw [b5 1, if_pos rfl], k4, fun j hj => by rw [b4 _ (Or.inl (by omega)), k7 _ (by omega), mB_vI]; exact fam_eq f3 j hj, fun j hj => by rw [b3 j hj, k6 j hj, mB_vI]; exact fam_eq f3 j hj, ab, k8, k5⟩
    obtain ⟨r, a2, m2, n, g1, g2, W2, V2, n7, r4, r5, r6, r7, r8, r9, r10, r11, r12⟩ := spread_L2 p hc c 1100 0 c b m1 (by omega) (by omega) hRS
    have hR2 : Rel a2 m2 := Rel_keep (Rel_v0 h 0) r10 r11 W2 V2
    by_cases e : r = 0
    · refine Meets.ok (r := -1) (a' := a2) (m' := m2) ?_ ?_ (r12.trans rfl) hR2
      · unfold fX7_spread
        simp only [s1, Option.bind_some, Sum.elim_inr, b1]
        rw [show fX0_spreadInto 0 1 p b = some (r, a2) from g1]
        simp only [Option.bind_some, if_pos e]
      · unfold fX8_spread
        simp only [s2, pass_0, Option.bind_some, one_0]
        rw [k1, show fX8_spreads_L41 p 1100 0 m1 = some (r, m2) from g2]
        simp only [Option.bind_some, if_pos e]
    · obtain ⟨a3, t1, t2, t3, t4, t5, t6⟩ := p_fbecome (F := 0) (G := 1) (by decide) (by decide) (by decide) n7 W2 r6
      obtain ⟨m3, q1, q2, q3, q4, q5⟩ := m_spread_L38 (nI n - nI c) n7 m2 n 1100 0 m2 (by omega) (by omega) V2 r7 rfl (fun j hj => by omega) (fun r _ => rfl)
      obtain ⟨_, _, hs2, _, ⟨L, hL, t21, t22, t23⟩⟩ := hR2
      refine Meets.ok (r := nI n - nI c) (a' := a3) (m' := vI m3 1 (nI n)) ?_ ?_ ?_ ⟨t2, q2, fun i hi => ?_, ⟨n, n7, ?_, ?_, fun j hj => ?_⟩, ⟨L, hL, ?_, ?_, fun k hk => ?_⟩⟩
      · unfold fX7_spread
        simp only [s1, Option.bind_some, Sum.elim_inr, b1]
        rw [show fX0_spreadInto 0 1 p b = some (r, a2) from g1]
        simp only [Option.bind_some, if_neg e, t1]
        unfold fX0_count
        rw [r4, r6]
      · unfold fX8_spread
        simp only [s2, pass_0, Option.bind_some, one_0]
        rw [k1, show fX8_spreads_L41 p 1100 0 m1 = some (r, m2) from g2]
        simp only [Option.bind_some, if_neg e]
        rw [r5, r7]
        exact q1
      · rw [b_mI_vI, if_neg (by decide), mI_eq q3]
        exact r12.trans rfl
      · rw [mB_vI, t4 i (Or.inl (by omega)), q5 i (Or.inl (by omega))]
        exact hs2 i hi
      · rw [t5 0, if_pos rfl]
      · rw [b_mI_vI, if_pos rfl]
      · have x1 := t3 j hj
        have x2 := q4 j hj
        rw [show 8 + 8 * 0 + j = 8 + j from by omega] at x1
        rw [show 9 + 7 * 0 + j = 9 + j from by omega] at x2
        rw [mB_vI, x1, x2]
        exact r9 j hj
      · rw [t5 2, if_neg (by decide)]
        exact t21
      · rw [b_mI_vI, if_neg (by decide), mI_eq q3]
        exact t22
      · rw [t6, b_mT_vI, mT_eq q3]
        exact t23 k hk
  · refine Meets.e1 (r := 0) h ?_ ?_
    · unfold fX7_spread
      simp only [s1, Option.bind_some, Sum.elim_inl]
    · unfold fX8_spread
      simp only [s2, pass_1, Option.bind_some, if_true]
/-! isClosed -/
def MS (m0 : mS) (c n : Nat) (m : mS) : Prop := Vm m ∧ n ≤ 7 ∧ mI m 1 = nI c ∧ mI m 2 = nI n ∧ meq m0 m ∧ mI m 0 = mI m0 0
theorem ms_L {m0 : mS} (how : Int32) {c i : Nat} (hc : c ≤ 7) (hi : i < c) (km : mS → Option (Int32 × mS)) : ∀ (d fuel j n : Nat) (m : mS), j + d = c → d < fuel → MS m0 c n m → (∃ m' n', fX8_spreads_L51 how (nI i) km fuel (nI j) m = some (0, m') ∧ n ≤ n' ∧ MS m0 c n' m') ∨ (∃ m' n', fX8_spreads_L51 how (nI i) km fuel (nI j) m = km m' ∧ n ≤ n' ∧ MS m0 c n' m') := by
  intro d
  induction d with
  | zero =>
    intro fuel j n m h hf hR
    obtain ⟨l, rfl⟩ : ∃ l, fuel = l + 1 := ⟨fuel - 1, by omega⟩
    right
    obtain ⟨_, _, r5, _⟩ := id hR
    rw [fX8_spreads_L51, r5, if_pos (nI_le (by omega) (by omega))]
    exact ⟨m, n, rfl, Nat.le_refl _, hR⟩
  | succ d ih =>
    intro fuel j n m h hf hR
    obtain ⟨l, rfl⟩ : ∃ l, fuel = l + 1 := ⟨fuel - 1, by omega⟩
    obtain ⟨V, n7, r5, r7, r11, r12⟩ := id hR
    have i7 : i < 7 := by omega
    have j7 : j < 7 := by omega
    obtain ⟨m1, k1, k2, k3, k4⟩ := m_joins (9 + 7 * 0 + i) (9 + 7 * 0 + j) how 8 V
    have hm1 : meq m0 m1 := meq_trans r11 (meq_up (Or.inr rfl) k3 k4)
    have hR1 : MS m0 c n m1 := ⟨k2, n7, (mI_eq k4 1).trans r5, (mI_eq k4 2).trans r7, hm1, (mI_eq k4 0).trans r12⟩
    rw [fX8_spreads_L51, r5, if_neg (nI_ge (by omega) (by omega)), if_pos (vin7 i7), if_pos (vin7 j7), cl7 i7, cl7 j7, k1, nI_1]
    simp only [Option.bind_some]
    by_cases e : nI i = nI j
    · rw [if_pos e]
      exact ih l (j + 1) n m1 (by omega) (by omega) hR1
    · have em : mI m1 2 = nI n := (mI_eq k4 2).trans r7
      rw [if_neg e, em, m_find 1 8 k2 n7]
      simp only [Option.bind_some, em]
      by_cases q1 : fi (fun q => mB m1 (9 + 7 * 1 + q)) (mB m1 8) n 0 = -1
      · rw [if_pos q1]
        by_cases q2 : n = 7
        · left
          subst q2
          rw [if_pos (show nI 7 = 7 from rfl)]
          exact ⟨m1, 7, rfl, Nat.le_refl _, hR1⟩
        · obtain ⟨m2, t1, t2, t3, t4, t5⟩ := m_inserts 1 (r := 8) (c := n) (Or.inl (by omega)) (by omega) k2
          rw [if_neg (fun z => by have := (nI_eq (a := n) (b := 7) (by omega) (by omega)).mp z; omega)]
          simp only [t1, Option.bind_some]
          have hR2 : MS m0 c (n + 1) (vI m2 2 (mI m2 2 + 1)) := by
            refine ⟨t2, by omega, ?_, ?_, ?_, ?_⟩
            · rw [b_mI_vI, if_neg (by decide), mI_eq t5]
              exact (mI_eq k4 1).trans r5
            · rw [b_mI_vI, if_pos rfl, mI_eq t5, show mI m1 2 = nI n from (mI_eq k4 2).trans r7, nI_1]
            · refine meq_trans hm1 ⟨fun w hw _ => t4 w (Or.inl (by omega)), ?_, ?_, (mT_eq (m' := m2) t5)⟩
              · rw [b_mI_vI, if_neg (by decide), mI_eq t5]
              · rw [b_mI_vI, if_neg (by decide), mI_eq t5]
            · rw [b_mI_vI, if_neg (by decide), mI_eq t5]
              exact (mI_eq k4 0).trans r12
          rcases ih l (j + 1) (n + 1) _ (by omega) (by omega) hR2 with ⟨m', n', z1, z2, z3⟩ | ⟨m', n', z1, z2, z3⟩
          · exact Or.inl ⟨m', n', z1, by omega, z3⟩
          · exact Or.inr ⟨m', n', z1, by omega, z3⟩
      · rw [if_neg q1]
        exact ih l (j + 1) n m1 (by omega) (by omega) hR1
theorem ms_L2 {m0 : mS} (how : Int32) {c : Nat} (hc : c ≤ 7) : ∀ (d fuel i n : Nat) (m : mS), i + d = c → d < fuel → MS m0 c n m → ∃ r m' n', fX8_spreads_L41 how fuel (nI i) m = some (r, m') ∧ n ≤ n' ∧ MS m0 c n' m' := by
  intro d
  induction d with
  | zero =>
    intro fuel i n m h hf hR
    obtain ⟨l, rfl⟩ : ∃ l, fuel = l + 1 := ⟨fuel - 1, by omega⟩
    obtain ⟨_, _, r5, _⟩ := id hR
    rw [fX8_spreads_L41, r5, if_pos (nI_le (by omega) (by omega))]
    exact ⟨1, m, n, rfl, Nat.le_refl _, hR⟩
  | succ d ih =>
    intro fuel i n m h hf hR
    obtain ⟨l, rfl⟩ : ∃ l, fuel = l + 1 := ⟨fuel - 1, by omega⟩
    obtain ⟨_, _, r5, _⟩ := id hR
    rw [fX8_spreads_L41, r5, if_neg (nI_ge (by omega) (by omega)), nI_1]
    rcases ms_L how hc (show i < c by omega) (fun s10 => fX8_spreads_L41 how l (nI (i + 1)) s10) c 1100 0 n m (by omega) (by omega) hR with ⟨m', n', h1, h2, h3⟩ | ⟨m', n', h1, h2, h3⟩
    · exact ⟨0, m', n', h1, h2, h3⟩
    · obtain ⟨r, m2, n2, g1, g2, g3⟩ := ih l (i + 1) n' m' (by omega) (by omega) h3
      exact ⟨r, m2, n2, h1.trans g1, by omega, g3⟩
def RC (a0 : cS) (m0 : mS) (c : Nat) (a : cS) (m : mS) : Prop := Wf a ∧ sI a 0 = nI c ∧ aeq a0 a ∧ MS m0 c c m ∧ (∀ j, j < c → cB a (8 + 8 * 0 + j) = mB m (9 + 7 * 0 + j)) ∧ (∀ j, j < c → mB m (9 + 7 * 1 + j) = mB m (9 + 7 * 0 + j))
theorem closed_L {a0 : cS} {m0 : mS} (how : Int32) {c i : Nat} (hc : c ≤ 7) (hi : i < c) (kc : cS → Option (Int32 × cS)) (km : mS → Option (Int32 × mS)) : ∀ (d fuel j : Nat) (a : cS) (m : mS), j + d = c → d < fuel → RC a0 m0 c a m → (∃ a', fX0_closedUnder_L12 0 how (nI i) kc fuel (nI j) a = some (0, a') ∧ Wf a' ∧ aeq a0 a' ∧ ((∃ m' n', fX8_spreads_L51 how (nI i) km fuel (nI j) m = some (0, m') ∧ MS m0 c n' m') ∨ (∃ m' n', fX8_spreads_L51 how (nI i) km fuel (nI j) m = km m' ∧ c < n' ∧ MS m0 c n' m'))) ∨ (∃ a' m', fX0_closedUnder_L12 0 how (nI i) kc fuel (nI j) a = kc a' ∧ fX8_spreads_L51 how (nI i) km fuel (nI j) m = km m' ∧ RC a0 m0 c a' m') := by
  intro d
  induction d with
  | zero =>
    intro fuel j a m h hf hR
    obtain ⟨l, rfl⟩ : ∃ l, fuel = l + 1 := ⟨fuel - 1, by omega⟩
    right
    obtain ⟨_, r4, _, ⟨_, _, r5, _⟩, _⟩ := id hR
    rw [fX0_closedUnder_L12, fX8_spreads_L51, r4, r5, if_pos (nI_le (by omega) (by omega)), if_pos (nI_le (by omega) (by omega))]
    exact ⟨a, m, rfl, rfl, hR⟩
  | succ d ih =>
    intro fuel j a m h hf hR
    obtain ⟨l, rfl⟩ : ∃ l, fuel = l + 1 := ⟨fuel - 1, by omega⟩
    obtain ⟨W, r4, r10, ⟨V, _, r5, r7, r11, r12⟩, r8, r9⟩ := id hR
    have i7 : i < 7 := by omega
    have j7 : j < 7 := by omega
    obtain ⟨m1, k1, k2, k3, k4⟩ := m_joins (9 + 7 * 0 + i) (9 + 7 * 0 + j) how 8 V
    have hm1 : meq m0 m1 := meq_trans r11 (meq_up (Or.inr rfl) k3 k4)
    have x8 : mB m1 8 = jn how (cB a (8 + 8 * 0 + i)) (cB a (8 + 8 * 0 + j)) := by rw [k3, zu_at, r8 i hi, r8 j (by omega)]
    have hM1 : MS m0 c c m1 := ⟨k2, hc, (mI_eq k4 1).trans r5, (mI_eq k4 2).trans r7, hm1, (mI_eq k4 0).trans r12⟩
    have rows1 : ∀ q, q < c → mB m1 (9 + 7 * 1 + q) = mB m1 (9 + 7 * 0 + q) := fun q hq => by rw [k3, zu_ne _ (by omega), zu_ne _ (by omega)]; exact r9 q hq
    rw [fX0_closedUnder_L12, fX8_spreads_L51, r4, r5, if_neg (nI_ge (by omega) (by omega)), if_neg (nI_ge (by omega) (by omega)), if_pos (vin7 i7), if_pos (vin7 j7), cl7 i7, cl7 j7, k1, nI_1]
    simp only [Option.bind_some]
    by_cases e : i = j
    · rw [if_pos (by rw [e]), if_pos (by rw [e])]
      exact ih l (j + 1) a m1 (by omega) (by omega) ⟨W, r4, r10, hM1, fun q hq => by rw [k3, zu_ne _ (by omega)]; exact r8 q hq, rows1⟩
    · have ne : ¬ nI i = nI j := fun z => e ((nI_eq (by omega) (by omega)).mp z)
      rw [if_neg ne, if_neg ne]
      obtain ⟨a1, p1, p2, p3⟩ := p_make (F := 0) how i7 j7 a
      have W1 : Wf a1 := Wf_up W (jn_wf (W _) (W _)) p2
      have y15 : cB a1 (15 + 8 * 0) = mB m1 8 := by rw [p2, zu_at, x8]
      have fe : fi (fun q => mB m1 (9 + 7 * 1 + q)) (mB m1 8) c 0 = fi (fun q => cB a1 (8 + 8 * 0 + q)) (cB a1 (15 + 8 * 0)) c 0 := by
        rw [y15]
        refine fi_cong c 0 (fun q _ hq => ?_)
        show mB m1 (9 + 7 * 1 + q) = cB a1 (8 + 8 * 0 + q)
        rw [rows1 q (by omega), k3, zu_ne _ (by omega), p2, zu_ne _ (by omega)]
        exact (r8 q (by omega)).symm
      have aeq1 : aeq a0 a1 := aeq_trans r10 (aeq_up (by omega) p2 p3)
      have em : mI m1 2 = nI c := (mI_eq k4 2).trans r7
      rw [p1, em, m_find 1 8 k2 hc, fe]
      simp only [Option.bind_some, em]
      rw [p_find (F := 0) (15 + 8 * 0) hc ((sI_eq p3 0).trans r4)]
      simp only [Option.bind_some]
      by_cases q1 : fi (fun q => cB a1 (8 + 8 * 0 + q)) (cB a1 (15 + 8 * 0)) c 0 = -1
      · rw [if_pos q1, if_pos q1]
        left
        refine ⟨a1, rfl, W1, aeq1, ?_⟩
        by_cases q2 : c = 7
        · left
          rw [if_pos (show nI c = 7 from by rw [q2]; rfl)]
          exact ⟨m1, c, rfl, hM1⟩
        · obtain ⟨m2, t1, t2, t3, t4, t5⟩ := m_inserts 1 (r := 8) (c := c) (Or.inl (by omega)) (by omega) k2
          rw [if_neg (fun z => by have := (nI_eq (a := c) (b := 7) (by omega) (by omega)).mp z; omega), t1]
          simp only [Option.bind_some]
          have hR2 : MS m0 c (c + 1) (vI m2 2 (mI m2 2 + 1)) := by
            refine ⟨t2, by omega, ?_, ?_, ?_, ?_⟩
            · rw [b_mI_vI, if_neg (by decide), mI_eq t5]
              exact (mI_eq k4 1).trans r5
            · rw [b_mI_vI, if_pos rfl, mI_eq t5, show mI m1 2 = nI c from (mI_eq k4 2).trans r7, nI_1]
            · refine meq_trans hm1 ⟨fun w hw _ => t4 w (Or.inl (by omega)), ?_, ?_, (mT_eq (m' := m2) t5)⟩
              · rw [b_mI_vI, if_neg (by decide), mI_eq t5]
              · rw [b_mI_vI, if_neg (by decide), mI_eq t5]
            · rw [b_mI_vI, if_neg (by decide), mI_eq t5]
              exact (mI_eq k4 0).trans r12
          rcases ms_L how hc hi km d l (j + 1) (c + 1) _ (by omega) (by omega) hR2 with ⟨m', n', z1, z2, z3⟩ | ⟨m', n', z1, z2, z3⟩
          · exact Or.inl ⟨m', n', z1, z3⟩
          · exact Or.inr ⟨m', n', z1, by omega, z3⟩
      · rw [if_neg q1, if_neg q1]
        exact ih l (j + 1) a1 m1 (by omega) (by omega) ⟨W1, (sI_eq p3 0).trans r4, aeq1, hM1, fun q hq => by rw [k3, zu_ne _ (by omega), p2, zu_ne _ (by omega)]; exact r8 q hq, rows1⟩
theorem closed_L2 {a0 : cS} {m0 : mS} (how : Int32) {c : Nat} (hc : c ≤ 7) : ∀ (d fuel i : Nat) (a : cS) (m : mS), i + d = c → d < fuel → RC a0 m0 c a m → ∃ r a' r' m' n', fX0_closedUnder_L2 0 how fuel (nI i) a = some (r, a') ∧ fX8_spreads_L41 how fuel (nI i) m = some (r', m') ∧ Wf a' ∧ aeq a0 a' ∧ MS m0 c n' m' ∧ ((r = 1 ∧ r' = 1 ∧ n' = c) ∨ (r = 0 ∧ (r' = 0 ∨ c < n'))) := by
  intro d
  induction d with
  | zero =>
    intro fuel i a m h hf hR
    obtain ⟨l, rfl⟩ : ∃ l, fuel = l + 1 := ⟨fuel - 1, by omega⟩
    obtain ⟨W, r4, r10, hM, _⟩ := id hR
    obtain ⟨_, _, r5, _⟩ := id hM
    rw [fX0_closedUnder_L2, fX8_spreads_L41, r4, r5, if_pos (nI_le (by omega) (by omega)), if_pos (nI_le (by omega) (by omega))]
    exact ⟨1, a, 1, m, c, rfl, rfl, W, r10, hM, Or.inl ⟨rfl, rfl, rfl⟩⟩
  | succ d ih =>
    intro fuel i a m h hf hR
    obtain ⟨l, rfl⟩ : ∃ l, fuel = l + 1 := ⟨fuel - 1, by omega⟩
    obtain ⟨W, r4, r10, hM, _⟩ := id hR
    obtain ⟨_, _, r5, _⟩ := id hM
    rw [fX0_closedUnder_L2, fX8_spreads_L41, r4, r5, if_neg (nI_ge (by omega) (by omega)), if_neg (nI_ge (by omega) (by omega)), nI_1]
    rcases closed_L how hc (show i < c by omega) (fun s3 => fX0_closedUnder_L2 0 how l (nI (i + 1)) s3) (fun s10 => fX8_spreads_L41 how l (nI (i + 1)) s10) c 1100 0 a m (by omega) (by omega) hR with ⟨a', h1, h2, h3, ⟨m', n', h4, h5⟩ | ⟨m', n', h4, h5, h6⟩⟩ | ⟨a', m', h1, h2, h3⟩
    · exact ⟨0, a', 0, m', n', h1, h4, h2, h3, h5, Or.inr ⟨rfl, Or.inl rfl⟩⟩
    · obtain ⟨r', m2, n2, g1, g2, g3⟩ := ms_L2 how hc d l (i + 1) n' m' (by omega) (by omega) h6
      exact ⟨0, a', r', m2, n2, h1, h4.trans g1, h2, h3, g3, Or.inr ⟨rfl, Or.inr (by omega)⟩⟩
    · obtain ⟨r, a2, r', m2, n2, g1, g2, g3⟩ := ih l (i + 1) a' m' (by omega) (by omega) h3
      exact ⟨r, a2, r', m2, n2, h1.trans g1, h2.trans g2, g3⟩
theorem g_isClosed {a : cS} {m : mS} {ee : Nat} (h : Rel a m) (p : Int32) : Meets 2 ee (fX7_isClosed p a) (fX8_isClosed p m) := by
  rcases rng p 0 2 with ⟨s1, s2, _, _⟩ | ⟨s1, s2⟩
  · obtain ⟨W, V, hs, ⟨c, hc, f1, f2, f3⟩, ht⟩ := id h
    obtain ⟨m1, k1, k2, k3, k4, k5, k6, k7, k8⟩ := m_spreads_begin p hc (Vm_vI V 0 0) f2
    have hRC : RC a (vI m 0 0) c a m1 := ⟨W, f1, aeq_refl a, ⟨k2, hc, k3, k4, k8, k5⟩, fun j hj => by rw [k7 _ (by omega), mB_vI]; exact fam_eq f3 j hj, fun j hj => by rw [k6 j hj, k7 _ (by omega)]⟩
    obtain ⟨r, a2, r', m2, n, g1, g2, W2, g3, ⟨V2, n7, r5, r7, r11, r12⟩, g5⟩ := closed_L2 p hc c 1100 0 a m1 (by omega) (by omega) hRC
    refine Meets.ok (r := r) (a' := a2) (m' := m2) ?_ ?_ (r12.trans rfl) (Rel_keep (Rel_v0 h 0) g3 r11 W2 V2)
    · unfold fX7_isClosed
      simp only [s1, Option.bind_some, Sum.elim_inr]
      rw [show fX0_closedUnder 0 p a = some (r, a2) from g1]
      rfl
    · unfold fX8_isClosed
      simp only [s2, pass_0, Option.bind_some, one_0]
      rw [k1, show fX8_spreads_L41 p 1100 0 m1 = some (r', m2) from g2]
      simp only [Option.bind_some]
      rcases g5 with ⟨rfl, rfl, rfl⟩ | ⟨rfl, rfl | z⟩
      · rw [if_neg (by decide), r5, r7, if_pos rfl]
      · rw [if_pos rfl]
      · by_cases e : r' = 0
        · rw [if_pos e]
        · rw [if_neg e, r5, r7, if_neg (fun z2 => by have := (nI_eq (a := n) (b := c) (by omega) (by omega)).mp z2; omega)]
  · refine Meets.e1 (r := 0) h ?_ ?_
    · unfold fX7_isClosed
      simp only [s1, Option.bind_some, Sum.elim_inl]
    · unfold fX8_isClosed
      simp only [s2, pass_1, Option.bind_some, if_true]
/-! ===== isChain, primes ===== -/
noncomputable def nst (f : Nat → BS) (i j : Nat) : Bool := inn (f i) (f j) || inn (f j) (f i)
theorem nst_comm (f : Nat → BS) (i j : Nat) : nst f i j = nst f j i := Bool.or_comm _ _
theorem p_chain_L {F c i : Nat} {s : cS} (hc : c ≤ 7) (hI : sI s F = nI c) (hi : i < c) (k0 : cS → Option (Int32 × cS)) : ∀ (d fuel j : Nat), j + d = c → d < fuel → ((∀ q, j ≤ q → q < c → nst (fun j => cB s (8 + 8 * F + j)) i q = true) ∧ fX0_allNested_L14 F (nI i) k0 fuel (nI j) s = k0 s) ∨ ((∃ q, j ≤ q ∧ q < c ∧ nst (fun j => cB s (8 + 8 * F + j)) i q = false) ∧ fX0_allNested_L14 F (nI i) k0 fuel (nI j) s = some (0, s)) := by
  intro d
  induction d with
  | zero =>
    intro fuel j h hf
    obtain ⟨l, rfl⟩ : ∃ l, fuel = l + 1 := ⟨fuel - 1, by omega⟩
    left
    rw [fX0_allNested_L14, hI, if_pos (nI_le (by omega) (by omega))]
    exact ⟨fun q h1 h2 => by omega, rfl⟩
  | succ d ih =>
    intro fuel j h hf
    obtain ⟨l, rfl⟩ : ∃ l, fuel = l + 1 := ⟨fuel - 1, by omega⟩
    have i7 : i < 7 := by omega
    have j7 : j < 7 := by omega
    have e : nst (fun j => cB s (8 + 8 * F + j)) i j = (inn (cB s (8 + 8 * F + i)) (cB s (8 + 8 * F + j)) || inn (cB s (8 + 8 * F + j)) (cB s (8 + 8 * F + i))) := rfl
    rw [fX0_allNested_L14, hI, if_neg (nI_ge (by omega) (by omega))]
    simp only [vin7 i7, vin7 j7, cl7 i7, cl7 j7, if_true, p_holdsAll, if_bi, nI_1]
    have st : nst (fun j => cB s (8 + 8 * F + j)) i j = true → ((∀ q, j ≤ q → q < c → nst (fun j => cB s (8 + 8 * F + j)) i q = true) ∧ fX0_allNested_L14 F (nI i) k0 l (nI (j + 1)) s = k0 s) ∨ ((∃ q, j ≤ q ∧ q < c ∧ nst (fun j => cB s (8 + 8 * F + j)) i q = false) ∧ fX0_allNested_L14 F (nI i) k0 l (nI (j + 1)) s = some (0, s)) := fun hn => by
      rcases ih l (j + 1) (by omega) (by omega) with ⟨g1, g2⟩ | ⟨⟨q, g1, g2, g3⟩, g4⟩
      · exact Or.inl ⟨fun q h1 h2 => if z : q = j then z ▸ hn else g1 q (by omega) h2, g2⟩
      · exact Or.inr ⟨⟨q, by omega, g2, g3⟩, g4⟩
    cases a : inn (cB s (8 + 8 * F + j)) (cB s (8 + 8 * F + i))
    · cases b : inn (cB s (8 + 8 * F + i)) (cB s (8 + 8 * F + j))
      · right
        exact ⟨⟨j, Nat.le_refl _, by omega, by rw [e, a, b]; rfl⟩, rfl⟩
      · exact st (by rw [e, a, b]; rfl)
    · exact st (by rw [e, a]; exact Bool.or_true _)
theorem p_chain_L2 {F c : Nat} {s : cS} (hc : c ≤ 7) (hI : sI s F = nI c) : ∀ (d fuel i : Nat), i + d = c → d < fuel → ((∀ p q, i ≤ p → p < q → q < c → nst (fun j => cB s (8 + 8 * F + j)) p q = true) ∧ fX0_allNested_L2 F fuel (nI i) s = some (1, s)) ∨ ((∃ p q, i ≤ p ∧ p < q ∧ q < c ∧ nst (fun j => cB s (8 + 8 * F + j)) p q = false) ∧ fX0_allNested_L2 F fuel (nI i) s = some (0, s)) := by
  intro d
  induction d with
  | zero =>
    intro fuel i h hf
    obtain ⟨l, rfl⟩ : ∃ l, fuel = l + 1 := ⟨fuel - 1, by omega⟩
    left
    rw [fX0_allNested_L2, hI, if_pos (nI_le (by omega) (by omega))]
    exact ⟨fun p q h1 h2 h3 => by omega, rfl⟩
  | succ d ih =>
    intro fuel i h hf
    obtain ⟨l, rfl⟩ : ∃ l, fuel = l + 1 := ⟨fuel - 1, by omega⟩
    rw [fX0_allNested_L2, hI, if_neg (nI_ge (by omega) (by omega)), nI_1]
    rcases p_chain_L hc hI (show i < c by omega) (fun s7 => fX0_allNested_L2 F l (nI (i + 1)) s7) (c - (i + 1)) 1100 (i + 1) (by omega) (by omega) with ⟨g1, g2⟩ | ⟨⟨q, g1, g2, g3⟩, g4⟩
    · rw [g2]
      rcases ih l (i + 1) (by omega) (by omega) with ⟨k1, k2⟩ | ⟨⟨p, q, k1, k2, k3, k4⟩, k5⟩
      · exact Or.inl ⟨fun p q h1 h2 h3 => if z : p = i then z ▸ g1 q (by omega) h3 else k1 p q (by omega) h2 h3, k2⟩
      · exact Or.inr ⟨⟨p, q, by omega, k2, k3, k4⟩, k5⟩
    · exact Or.inr ⟨⟨i, q, Nat.le_refl _, by omega, g2, g3⟩, g4⟩
theorem m_chain_L {c i : Nat} {m : mS} (hc : c ≤ 7) (hi : i < c) (k0 : mS → Option (Int32 × mS)) : ∀ (d fuel j : Nat), j + d = i → d < fuel → ((∀ q, j ≤ q → q < i → nst (fun j => mB m (9 + 7 * 0 + j)) i q = true) ∧ fX8_isChain_L17 (nI i) k0 fuel (nI j) m = k0 m) ∨ ((∃ q, j ≤ q ∧ q < i ∧ nst (fun j => mB m (9 + 7 * 0 + j)) i q = false) ∧ fX8_isChain_L17 (nI i) k0 fuel (nI j) m = some (0, m)) := by
  intro d
  induction d with
  | zero =>
    intro fuel j h hf
    obtain ⟨l, rfl⟩ : ∃ l, fuel = l + 1 := ⟨fuel - 1, by omega⟩
    left
    rw [fX8_isChain_L17, if_pos (nI_le (by omega) (by omega))]
    exact ⟨fun q h1 h2 => by omega, rfl⟩
  | succ d ih =>
    intro fuel j h hf
    obtain ⟨l, rfl⟩ : ∃ l, fuel = l + 1 := ⟨fuel - 1, by omega⟩
    have i7 : i < 7 := by omega
    have j7 : j < 7 := by omega
    have e : nst (fun j => mB m (9 + 7 * 0 + j)) i j = (inn (mB m (9 + 7 * 0 + i)) (mB m (9 + 7 * 0 + j)) || inn (mB m (9 + 7 * 0 + j)) (mB m (9 + 7 * 0 + i))) := rfl
    rw [fX8_isChain_L17, if_neg (nI_ge (by omega) (by omega))]
    simp only [vin7 i7, vin7 j7, cl7 i7, cl7 j7, if_true, m_lies, Option.bind_some, if_bi, nI_1]
    have st : nst (fun j => mB m (9 + 7 * 0 + j)) i j = true → ((∀ q, j ≤ q → q < i → nst (fun j => mB m (9 + 7 * 0 + j)) i q = true) ∧ fX8_isChain_L17 (nI i) k0 l (nI (j + 1)) m = k0 m) ∨ ((∃ q, j ≤ q ∧ q < i ∧ nst (fun j => mB m (9 + 7 * 0 + j)) i q = false) ∧ fX8_isChain_L17 (nI i) k0 l (nI (j + 1)) m = some (0, m)) := fun hn => by
      rcases ih l (j + 1) (by omega) (by omega) with ⟨g1, g2⟩ | ⟨⟨q, g1, g2, g3⟩, g4⟩
      · exact Or.inl ⟨fun q h1 h2 => if z : q = j then z ▸ hn else g1 q (by omega) h2, g2⟩
      · exact Or.inr ⟨⟨q, by omega, g2, g3⟩, g4⟩
    cases a : inn (mB m (9 + 7 * 0 + i)) (mB m (9 + 7 * 0 + j))
    · cases b : inn (mB m (9 + 7 * 0 + j)) (mB m (9 + 7 * 0 + i))
      · right
        exact ⟨⟨j, Nat.le_refl _, by omega, by rw [e, a, b]; rfl⟩, rfl⟩
      · exact st (by rw [e, a, b]; rfl)
    · exact st (by rw [e, a]; rfl)
theorem m_chain_L2 {c : Nat} {m : mS} (hc : c ≤ 7) (hI : mI m 1 = nI c) : ∀ (d fuel i : Nat), i + d = c → d < fuel → ((∀ p q, i ≤ p → q < p → p < c → nst (fun j => mB m (9 + 7 * 0 + j)) p q = true) ∧ fX8_isChain_L7 fuel (nI i) m = some (1, m)) ∨ ((∃ p q, i ≤ p ∧ q < p ∧ p < c ∧ nst (fun j => mB m (9 + 7 * 0 + j)) p q = false) ∧ fX8_isChain_L7 fuel (nI i) m = some (0, m)) := by
  intro d
  induction d with
  | zero =>
    intro fuel i h hf
    obtain ⟨l, rfl⟩ : ∃ l, fuel = l + 1 := ⟨fuel - 1, by omega⟩
    left
    rw [fX8_isChain_L7, hI, if_pos (nI_le (by omega) (by omega))]
    exact ⟨fun p q h1 h2 h3 => by omega, rfl⟩
  | succ d ih =>
    intro fuel i h hf
    obtain ⟨l, rfl⟩ : ∃ l, fuel = l + 1 := ⟨fuel - 1, by omega⟩
    rw [fX8_isChain_L7, hI, if_neg (nI_ge (by omega) (by omega)), nI_1]
    rcases m_chain_L (m := m) hc (show i < c by omega) (fun s7 => fX8_isChain_L7 l (nI (i + 1)) s7) i 1100 0 (by omega) (by omega) with ⟨g1, g2⟩ | ⟨⟨q, g1, g2, g3⟩, g4⟩
    · rw [show fX8_isChain_L17 (nI i) (fun s7 => fX8_isChain_L7 l (nI (i + 1)) s7) 1100 0 m = _ from g2]
      rcases ih l (i + 1) (by omega) (by omega) with ⟨k1, k2⟩ | ⟨⟨p, q, k1, k2, k3, k4⟩, k5⟩
      · exact Or.inl ⟨fun p q h1 h2 h3 => if z : p = i then (by subst z; exact g1 q (Nat.zero_le _) h2) else k1 p q (by omega) h2 h3, k2⟩
      · exact Or.inr ⟨⟨p, q, by omega, k2, k3, k4⟩, k5⟩
    · exact Or.inr ⟨⟨i, q, Nat.le_refl _, g2, by omega, g3⟩, g4⟩
theorem g_isChain {a : cS} {m : mS} (h : Rel a m) : Meet0 (fX7_isChain a) (fX8_isChain m) := by
  obtain ⟨c, hc, f1, f2, f3⟩ := h.2.2.2.1
  have fe := fam_eq f3
  have ne : ∀ p q, p < c → q < c → nst (fun j => cB a (8 + 8 * 0 + j)) p q = nst (fun j => mB m (9 + 7 * 0 + j)) p q := fun p q hp hq => by
    unfold nst
    show (inn (cB a (8 + 8 * 0 + p)) (cB a (8 + 8 * 0 + q)) || inn (cB a (8 + 8 * 0 + q)) (cB a (8 + 8 * 0 + p))) = _
    rw [fe p hp, fe q hq]
  have A := p_chain_L2 (F := 0) hc f1 c 1100 0 (by omega) (by omega)
  have B := m_chain_L2 (m := vI m 0 0) hc f2 c 1100 0 (by omega) (by omega)
  unfold fX7_isChain fX8_isChain fX0_allNested
  rcases A with ⟨a1, a2⟩ | ⟨⟨p, q, a1, a2, a3, a4⟩, a5⟩
  · rcases B with ⟨b1, b2⟩ | ⟨⟨p, q, b1, b2, b3, b4⟩, b5⟩
    · rw [show fX0_allNested_L2 0 1100 0 a = _ from a2]
      exact ⟨1, a, vI m 0 0, rfl, b2, Rel_v0 h 0⟩
    · have b4 : nst (fun j => mB m (9 + 7 * 0 + j)) p q = false := b4
      have := a1 q p (Nat.zero_le _) b2 b3
      rw [ne q p (by omega) b3, nst_comm, b4] at this
      exact Bool.noConfusion this
  · rcases B with ⟨b1, b2⟩ | ⟨⟨p', q', b1, b2, b3, b4⟩, b5⟩
    · have : nst (fun j => mB m (9 + 7 * 0 + j)) q p = true := b1 q p (Nat.zero_le _) a2 a3
      rw [ne p q (by omega) a3, nst_comm, this] at a4
      exact Bool.noConfusion a4
    · rw [show fX0_allNested_L2 0 1100 0 a = _ from a5]
      exact ⟨0, a, vI m 0 0, rfl, b5, Rel_v0 h 0⟩
/-! places as bits -/
theorem bt7 : ∀ M, M < 128 → ∀ k, k < 7 → (((nI M >>> (nI k &&& 31)) &&& 1) = 0 ↔ M.testBit k = false) := by decide +kernel
theorem or7 : ∀ M, M < 128 → ∀ k, k < 7 → (nI M ||| (1 <<< (nI k &&& 31))) = nI (M ||| 2 ^ k) ∧ M ||| 2 ^ k < 128 := by decide +kernel
def oth (c i : Nat) : Nat := (2 ^ c - 1) &&& (127 ^^^ 2 ^ i)
theorem oth7 : ∀ c, c < 8 → ∀ i, i < 7 → ((((1 : Int32) <<< (nI c &&& (31 : Int32)) : Int32) - (1 : Int32) : Int32) &&& (((1 : Int32) <<< (nI i &&& (31 : Int32)) : Int32) ^^^ (-1 : Int32))) = nI (oth c i) ∧ oth c i < 128 ∧ ∀ j, j < 7 → (oth c i).testBit j = (decide (j < c) && decide (j ≠ i)) := by decide +kernel
theorem big7 {M j : Nat} (h : M < 128) (hj : 7 ≤ j) : M.testBit j = false := Nat.testBit_lt_two_pow (Nat.lt_of_lt_of_le h (Nat.pow_le_pow_right (n := 2) (by decide) hj))
theorem p_pw_L {F p c M0 : Nat} {s : cS} (hc : c ≤ 7) (hI : sI s F = nI c) (hM0 : M0 < 128) : ∀ (d fuel k M : Nat), k + d = c → d < fuel → M < 128 → (∀ j, M.testBit j = (decide (j < k) && M0.testBit j && inn (cB s (8 + 8 * F + j)) (cB s p))) → ∃ M', M' < 128 ∧ fX0_placesWithin_L5 F (nI M0) p fuel (nI M) (nI k) s = some (nI M', s) ∧ ∀ j, M'.testBit j = (decide (j < c) && M0.testBit j && inn (cB s (8 + 8 * F + j)) (cB s p)) := by
  intro d
  induction d with
  | zero =>
    intro fuel k M h hf hM hb
    obtain ⟨l, rfl⟩ : ∃ l, fuel = l + 1 := ⟨fuel - 1, by omega⟩
    have : k = c := by omega
    subst this
    rw [fX0_placesWithin_L5, hI, if_pos (nI_le (by omega) (by omega))]
    exact ⟨M, hM, rfl, hb⟩
  | succ d ih =>
    intro fuel k M h hf hM hb
    obtain ⟨l, rfl⟩ : ∃ l, fuel = l + 1 := ⟨fuel - 1, by omega⟩
    have k7 : k < 7 := by omega
    have or := or7 M hM k k7
    have keep : (M0.testBit k && inn (cB s (8 + 8 * F + k)) (cB s p)) = false → ∀ j, M.testBit j = (decide (j < k + 1) && M0.testBit j && inn (cB s (8 + 8 * F + j)) (cB s p)) := fun z j => by
      rw [hb j]
      by_cases e : j = k
      · subst e
        rw [decide_eq_false (Nat.lt_irrefl _), decide_eq_true (Nat.lt_succ_self _), Bool.false_and, Bool.false_and, Bool.true_and, z]
      · rw [show decide (j < k) = decide (j < k + 1) from decide_eq_decide.mpr (by omega)]
    rw [fX0_placesWithin_L5, hI, if_neg (nI_ge (by omega) (by omega)), if_boolf (bt7 M0 hM0 k k7), if_pos (vin7 k7), cl7 k7, p_holdsAll, if_bi, nI_1, or.1]
    cases a : M0.testBit k
    · exact ih l (k + 1) M (by omega) (by omega) hM (keep (by rw [a]; rfl))
    · rw [if_pos rfl]
      cases b : inn (cB s (8 + 8 * F + k)) (cB s p)
      · exact ih l (k + 1) M (by omega) (by omega) hM (keep (by rw [b]; exact Bool.and_false _))
      · rw [if_pos rfl]
        refine ih l (k + 1) (M ||| 2 ^ k) (by omega) (by omega) or.2 (fun j => ?_)
        rw [Nat.testBit_or, Nat.testBit_two_pow, hb j]
        by_cases e : k = j
        · subst e
          rw [decide_eq_true rfl, decide_eq_true (Nat.lt_succ_self _), a, b, Bool.or_true]
          rfl
        · rw [decide_eq_false e, Bool.or_false, show decide (j < k) = decide (j < k + 1) from decide_eq_decide.mpr (by omega)]
theorem p_pw {F c M0 : Nat} (p : Nat) {s : cS} (hc : c ≤ 7) (hI : sI s F = nI c) (hM0 : M0 < 128) : ∃ M, M < 128 ∧ fX0_placesWithin F (nI M0) p s = some (nI M, s) ∧ ∀ j, M.testBit j = (decide (j < c) && M0.testBit j && inn (cB s (8 + 8 * F + j)) (cB s p)) :=
  p_pw_L hc hI hM0 c 1100 0 0 (by omega) (by omega) (by decide) (fun j => by rw [Nat.zero_testBit, decide_eq_false (Nat.not_lt_zero j)]; rfl)
/-- the union of those that are told -/
def un (f : Nat → BS) (P : Nat → Bool) : Nat → BS
  | 0 => fun _ => false
  | k + 1 => if P k then jn 0 (un f P k) (f k) else un f P k
theorem un_cong {f g : Nat → BS} {P Q : Nat → Bool} : ∀ {c : Nat}, (∀ j, j < c → P j = Q j) → (∀ j, j < c → f j = g j) → un f P c = un g Q c
  | 0, _, _ => rfl
  | c + 1, h1, h2 => by rw [un, un, h1 c (by omega), h2 c (by omega), un_cong (fun j hj => h1 j (by omega)) (fun j hj => h2 j (by omega))]
theorem un_wf {f : Nat → BS} (hf : ∀ j, wfB (f j)) (P : Nat → Bool) : ∀ c, wfB (un f P c)
  | 0 => wf_0
  | c + 1 => by
    rw [un]
    split
    · exact jn_wf (un_wf hf P c) (hf c)
    · exact un_wf hf P c
theorem p_un_L {F c M i : Nat} {s0 : cS} (hF : F < 2) (hc : c ≤ 7) (hM : M < 128) (k0 : cS → Option (Int32 × cS)) (x1 : Int32) : ∀ (d fuel k : Nat) (s : cS), k + d = c → d < fuel → sI s0 F = nI c → s.2.2 = s0.2.2 → cB s = va_up (cB s0) (15 + 8 * F) (un (fun j => cB s0 (8 + 8 * F + j)) (fun j => M.testBit j) k) → ∃ s', fX0_isUnionOf_L9 F x1 (nI M) k0 fuel (nI k) s = k0 s' ∧ s'.2.2 = s0.2.2 ∧ cB s' = va_up (cB s0) (15 + 8 * F) (un (fun j => cB s0 (8 + 8 * F + j)) (fun j => M.testBit j) c) := by
  intro d
  induction d with
  | zero =>
    intro fuel k s h hf hI h2 hB
    obtain ⟨l, rfl⟩ : ∃ l, fuel = l + 1 := ⟨fuel - 1, by omega⟩
    have : k = c := by omega
    subst this
    rw [fX0_isUnionOf_L9, sI_eq h2, hI, if_pos (nI_le (by omega) (by omega))]
    exact ⟨s, rfl, h2, hB⟩
  | succ d ih =>
    intro fuel k s h hf hI h2 hB
    obtain ⟨l, rfl⟩ : ∃ l, fuel = l + 1 := ⟨fuel - 1, by omega⟩
    have k7 : k < 7 := by omega
    rw [fX0_isUnionOf_L9, sI_eq h2, hI, if_neg (nI_ge (by omega) (by omega)), if_boolf (bt7 M hM k k7), if_pos (vin7 k7), cl7 k7, nI_1]
    cases a : M.testBit k
    · refine ih l (k + 1) s (by omega) (by omega) hI h2 ?_
      rw [hB, un, a]
      rfl
    · rw [if_pos rfl]
      obtain ⟨s1, e1, e2, e3⟩ := p_combine (15 + 8 * F) 0 (8 + 8 * F + k) s
      rw [e1]
      simp only [Option.bind_some]
      refine ih l (k + 1) s1 (by omega) (by omega) hI (e3.trans h2) ?_
      rw [e2, hB, zu_twice, zu_at, zu_ne _ (by omega), un, a]
      rfl
theorem p_un {F c M i : Nat} {s : cS} (hF : F < 2) (hc : c ≤ 7) (hM : M < 128) (hi : i < c) (hI : sI s F = nI c) : ∃ s', fX0_isUnionOf F (nI i) (nI M) s = some (bi (same (un (fun j => cB s (8 + 8 * F + j)) (fun j => M.testBit j) c) (cB s (8 + 8 * F + i))), s') ∧ s'.2.2 = s.2.2 ∧ cB s' = va_up (cB s) (15 + 8 * F) (un (fun j => cB s (8 + 8 * F + j)) (fun j => M.testBit j) c) := by
  unfold fX0_isUnionOf
  obtain ⟨s1, e1, e2, e3⟩ := p_empty (15 + 8 * F) s
  obtain ⟨s2, g1, g2, g3⟩ := p_un_L (s0 := s) (i := i) hF hc hM (fun s4 => if vin (nI i) 7 = true then (some ((fX2_sameAs (15 + 8 * F) (8 + 8 * F + (nI i).toNatClampNeg) s4, s4))) else none) (nI i) c 1100 0 s1 (by omega) (by omega) hI e3 (by rw [un]; exact e2)
  refine ⟨s2, ?_, g2, g3⟩
  have e : fX0_isUnionOf_L9 F (nI i) (nI M) (fun s4 => if vin (nI i) 7 = true then (some ((fX2_sameAs (15 + 8 * F) (8 + 8 * F + (nI i).toNatClampNeg) s4, s4))) else none) 1100 0 s1 = _ := g1
  have x1 : cB s2 (15 + 8 * F) = un (fun j => cB s (8 + 8 * F + j)) (fun j => M.testBit j) c := by rw [g3]; exact zu_at _ _ _
  have x2 : cB s2 (8 + 8 * F + i) = cB s (8 + 8 * F + i) := by rw [g3]; exact zu_ne _ (by omega) _
  rw [e1]
  simp only [Option.bind_some]
  rw [e]
  rw [if_pos (vin7 (show i < 7 by omega)), cl7 (show i < 7 by omega), p_sameAs, x1, x2]
/-- prime sets -/
noncomputable def pri (f : Nat → BS) (c i : Nat) : Bool := !same (un f (fun j => decide (j ≠ i) && inn (f j) (f i)) c) (f i)
theorem pri_cong {f g : Nat → BS} {c i : Nat} (h : ∀ j, j < c → f j = g j) (hi : i < c) : pri f c i = pri g c i := by
  unfold pri
  rw [h i hi, un_cong (fun j hj => by show (decide (j ≠ i) && inn (f j) (g i)) = (decide (j ≠ i) && inn (g j) (g i)); rw [h j hj]) h]
theorem p_primes_L {c : Nat} {s0 : cS} (hc : c ≤ 7) (W : Wf s0) (hI : sI s0 0 = nI c) : ∀ (d fuel k M : Nat) (s : cS), k + d = c → d < fuel → M < 128 → s.2.2 = s0.2.2 → (∀ n, n ≠ 15 → cB s n = cB s0 n) → Wf s → (∀ j, M.testBit j = (decide (j < k) && pri (fun j => cB s0 (8 + 8 * 0 + j)) c j)) → ∃ M' s', M' < 128 ∧ fX0_primePlaces_L4 0 fuel (nI M) (nI k) s = some (nI M', s') ∧ s'.2.2 = s0.2.2 ∧ (∀ n, n ≠ 15 → cB s' n = cB s0 n) ∧ Wf s' ∧ ∀ j, M'.testBit j = (decide (j < c) && pri (fun j => cB s0 (8 + 8 * 0 + j)) c j) := by
  intro d
  induction d with
  | zero =>
    intro fuel k M s h hf hM h2 hB W1 hb
    obtain ⟨l, rfl⟩ : ∃ l, fuel = l + 1 := ⟨fuel - 1, by omega⟩
    have : k = c := by omega
    subst this
    rw [fX0_primePlaces_L4, sI_eq h2, hI, if_pos (nI_le (by omega) (by omega))]
    exact ⟨M, s, hM, rfl, h2, hB, W1, hb⟩
  | succ d ih =>
    intro fuel k M s h hf hM h2 hB W1 hb
    obtain ⟨l, rfl⟩ : ∃ l, fuel = l + 1 := ⟨fuel - 1, by omega⟩
    have k7 : k < 7 := by omega
    have or := or7 M hM k k7
    have ot := oth7 c (by omega) k k7
    have hIs : sI s 0 = nI c := (sI_eq h2 0).trans hI
    have ea : fX0_allPlaces 0 s &&& ((1 <<< (nI k &&& 31)) ^^^ (-1)) = nI (oth c k) := by
      unfold fX0_allPlaces
      rw [hIs]
      exact ot.1
    obtain ⟨M1, q1, q2, q3⟩ := p_pw (8 + 8 * 0 + k) hc hIs ot.2.1
    obtain ⟨s1, r1, r2, r3⟩ := p_un (F := 0) (M := M1) (i := k) (by decide) hc q1 (by omega) hIs
    have W2 : Wf s1 := Wf_up W1 (un_wf (fun j => W1 _) _ _) r3
    have B2 : ∀ n, n ≠ 15 → cB s1 n = cB s0 n := fun n hn => by rw [r3, zu_ne _ hn]; exact hB n hn
    have ep : same (un (fun j => cB s (8 + 8 * 0 + j)) (fun j => M1.testBit j) c) (cB s (8 + 8 * 0 + k)) = !pri (fun j => cB s0 (8 + 8 * 0 + j)) c k := by
      unfold pri
      rw [Bool.not_not, hB _ (by omega)]
      refine congrArg (fun z => same z (cB s0 (8 + 8 * 0 + k))) (un_cong (fun j hj => ?_) (fun j hj => hB _ (by omega)))
      rw [q3 j, ot.2.2 j (by omega), decide_eq_true hj, Bool.true_and, Bool.true_and, hB _ (by omega), hB _ (by omega)]
    rw [fX0_primePlaces_L4, hIs, if_neg (nI_ge (by omega) (by omega)), if_pos (vin7 k7), cl7 k7, ea, q2]
    simp only [Option.bind_some, r1, ep, if_bi, nI_1, or.1]
    cases a : pri (fun j => cB s0 (8 + 8 * 0 + j)) c k
    · simp only [Bool.not_false, if_true]
      refine ih l (k + 1) M s1 (by omega) (by omega) hM (r2.trans h2) B2 W2 (fun j => ?_)
      rw [hb j]
      by_cases e : j = k
      · subst e
        rw [a, Bool.and_false, Bool.and_false]
      · rw [show decide (j < k) = decide (j < k + 1) from decide_eq_decide.mpr (by omega)]
    · simp only [Bool.not_true, Bool.false_eq_true, if_false]
      refine ih l (k + 1) (M ||| 2 ^ k) s1 (by omega) (by omega) or.2 (r2.trans h2) B2 W2 (fun j => ?_)
      rw [Nat.testBit_or, Nat.testBit_two_pow, hb j]
      by_cases e : k = j
      · subst e
        rw [decide_eq_true rfl, decide_eq_true (Nat.lt_succ_self _), a, Bool.or_true]
        rfl
      · rw [decide_eq_false e, Bool.or_false, show decide (j < k) = decide (j < k + 1) from decide_eq_decide.mpr (by omega)]
theorem p_primes {c : Nat} {s : cS} (hc : c ≤ 7) (W : Wf s) (hI : sI s 0 = nI c) : ∃ M s', M < 128 ∧ fX0_primePlaces 0 s = some (nI M, s') ∧ s'.2.2 = s.2.2 ∧ (∀ n, n ≠ 15 → cB s' n = cB s n) ∧ Wf s' ∧ ∀ j, M.testBit j = (decide (j < c) && pri (fun j => cB s (8 + 8 * 0 + j)) c j) :=
  p_primes_L hc W hI c 1100 0 0 s (by omega) (by omega) (by decide) rfl (fun _ _ => rfl) W (fun j => by rw [Nat.zero_testBit, decide_eq_false (Nat.not_lt_zero j)]; rfl)
theorem bc7_1 : ∀ M, M < 128 → (nI M - (((nI M).toUInt32 >>> ((1 : Int32).toUInt32 &&& Int32.toUInt32 31)).toInt32 &&& 1431655765) = nI (M - (M / 2 &&& 85))) ∧ M - (M / 2 &&& 85) < 128 := by decide +kernel
theorem bc7_2 : ∀ z, z < 128 → ((nI z &&& 858993459) + (((nI z).toUInt32 >>> ((2 : Int32).toUInt32 &&& Int32.toUInt32 31)).toInt32 &&& 858993459) = nI ((z &&& 51) + (z / 4 &&& 51))) ∧ (z &&& 51) + (z / 4 &&& 51) < 128 := by decide +kernel
theorem bc7_3 : ∀ w, w < 128 → ((nI w + ((nI w).toUInt32 >>> ((4 : Int32).toUInt32 &&& Int32.toUInt32 31)).toInt32) &&& 252645135) = nI ((w + w / 16) &&& 15) ∧ (w + w / 16) &&& 15 < 16 := by decide +kernel
theorem bc7_4 : ∀ v, v < 16 → nI v + ((nI v).toUInt32 >>> ((8 : Int32).toUInt32 &&& Int32.toUInt32 31)).toInt32 = nI v ∧ nI v + ((nI v).toUInt32 >>> ((16 : Int32).toUInt32 &&& Int32.toUInt32 31)).toInt32 = nI v ∧ nI v &&& 63 = nI v := by decide +kernel
theorem bc7_n : ∀ M, M < 128 → ((((M - (M / 2 &&& 85)) &&& 51) + ((M - (M / 2 &&& 85)) / 4 &&& 51)) + (((M - (M / 2 &&& 85)) &&& 51) + ((M - (M / 2 &&& 85)) / 4 &&& 51)) / 16) &&& 15 = fb_ct (fun j => M.testBit j) 7 := by decide +kernel
theorem bc7 (s : cS) (M : Nat) (h : M < 128) : fJ6_bitCount_0f7a4 (nI M) s = nI (fb_ct (fun j => M.testBit j) 7) := by
  unfold fJ6_bitCount_0f7a4
  have q1 := bc7_1 M h
  have q2 := bc7_2 _ q1.2
  have q3 := bc7_3 _ q2.2
  have q4 := bc7_4 _ q3.2
  rw [q1.1, q2.1, q3.1, q4.1, q4.2.1, q4.2.2, bc7_n M h]
/-! ===== the reference's primes; primes, primesWithin, familyErrors ===== -/
/-- rows below 23, and above it up to 64, are as before, and so are the ints -/
def mfr (m m' : mS) : Prop := Vm m' ∧ m'.2 = m.2 ∧ ∀ r, r ≠ 23 → mB m' r = mB m r
theorem m_unc_L {c i : Nat} {m0 : mS} (hc : c ≤ 7) (hI : mI m0 1 = nI c) (hi : i < c) : ∀ (d fuel k : Nat) (m : mS), k + d = c → d < fuel → Vm m → m.2 = m0.2 → mB m = va_up (mB m0) 23 (un (fun j => mB m0 (9 + 7 * 0 + j)) (fun j => decide (j ≠ i) && inn (mB m0 (9 + 7 * 0 + j)) (mB m0 (9 + 7 * 0 + i))) k) → ∃ m', fX8_unites_c_L11 (9 + 7 * 0 + i) (nI i) 23 fuel (nI k) m = some m' ∧ Vm m' ∧ m'.2 = m0.2 ∧ mB m' = va_up (mB m0) 23 (un (fun j => mB m0 (9 + 7 * 0 + j)) (fun j => decide (j ≠ i) && inn (mB m0 (9 + 7 * 0 + j)) (mB m0 (9 + 7 * 0 + i))) c) := by
  intro d
  induction d with
  | zero =>
    intro fuel k m h hf V h2 hB
    obtain ⟨l, rfl⟩ : ∃ l, fuel = l + 1 := ⟨fuel - 1, by omega⟩
    have : k = c := by omega
    subst this
    rw [fX8_unites_c_L11, mI_eq h2, hI, if_pos (nI_le (by omega) (by omega))]
    exact ⟨m, rfl, V, h2, hB⟩
  | succ d ih =>
    intro fuel k m h hf V h2 hB
    obtain ⟨l, rfl⟩ : ∃ l, fuel = l + 1 := ⟨fuel - 1, by omega⟩
    have k7 : k < 7 := by omega
    rw [fX8_unites_c_L11, mI_eq h2, hI, if_neg (nI_ge (by omega) (by omega)), nI_1]
    have hk := ih l (k + 1)
    rw [un] at hk
    by_cases e : k = i
    · rw [if_pos (by rw [e])]
      refine hk m (by omega) (by omega) V h2 ?_
      rw [hB, decide_eq_false (fun z => z e), Bool.false_and]
      rfl
    · rw [if_neg (fun z => e ((nI_eq (by omega) (by omega)).mp z)), if_pos (vin7 k7), cl7 k7, m_lies]
      simp only [Option.bind_some, if_bi]
      rw [hB, zu_ne _ (by omega), zu_ne _ (by omega)]
      rw [decide_eq_true e, Bool.true_and] at hk
      cases a : inn (mB m0 (9 + 7 * 0 + k)) (mB m0 (9 + 7 * 0 + i))
      · rw [a] at hk
        exact hk m (by omega) (by omega) V h2 hB
      · rw [a] at hk
        simp only [if_true] at hk ⊢
        obtain ⟨m1, k1, k2, k3, k4⟩ := m_joins 23 (9 + 7 * 0 + k) 0 23 V
        rw [if_pos (vin7 k7), k1]
        simp only [Option.bind_some]
        refine hk m1 (by omega) (by omega) k2 (k4.trans h2) ?_
        rw [k3, hB, zu_twice, zu_at, zu_ne _ (by omega)]
theorem m_isPrime {c i : Nat} {m : mS} (V : Vm m) (hc : c ≤ 7) (hI : mI m 1 = nI c) (hi : i < c) : ∃ m', fX8_isPrime (nI i) m = some (bi (pri (fun j => mB m (9 + 7 * 0 + j)) c i), m') ∧ mfr m m' := by
  unfold fX8_isPrime fX8_unites_c
  have i7 : i < 7 := by omega
  obtain ⟨m1, k1, k2, k3, k4⟩ := m_joins (9 + 7 * 0 + i) (9 + 7 * 0 + i) 2 23 V
  rw [jn2_self] at k3
  obtain ⟨m2, g1, g2, g3, g4⟩ := m_unc_L (m0 := m) hc hI hi c 1100 0 m1 (by omega) (by omega) k2 k4 k3
  refine ⟨m2, ?_, g2, g3, fun r hr => by rw [g4, zu_ne _ hr]⟩
  rw [if_pos (vin7 i7), cl7 i7, k1]
  simp only [Option.bind_some]
  rw [show fX8_unites_c_L11 (9 + 7 * 0 + i) (nI i) 23 1100 0 m1 = some m2 from g1]
  simp only [Option.bind_some, vin7 i7, if_true, m_areSame _ _ g2, bi_casen]
  rw [g4, zu_at, zu_ne _ (by omega)]
  rfl
theorem mfr_refl {m : mS} (V : Vm m) : mfr m m := ⟨V, rfl, fun _ _ => rfl⟩
theorem mfr_trans {a b c : mS} (h : mfr a b) (g : mfr b c) : mfr a c := ⟨g.1, g.2.1.trans h.2.1, fun r hr => (g.2.2 r hr).trans (h.2.2 r hr)⟩
theorem mfr_meq {m m' : mS} (h : mfr m m') : meq m m' := ⟨fun r hr _ => h.2.2 r (by omega), mI_eq h.2.1 1, mI_eq h.2.1 3, mT_eq h.2.1⟩
theorem mfr_pri {m m' : mS} (h : mfr m m') {c i : Nat} (hc : c ≤ 7) (hi : i < c) : pri (fun j => mB m' (9 + 7 * 0 + j)) c i = pri (fun j => mB m (9 + 7 * 0 + j)) c i := pri_cong (fun j hj => h.2.2 _ (by omega)) hi
theorem m_primes_L {c : Nat} {m0 : mS} (hc : c ≤ 7) (hI : mI m0 1 = nI c) : ∀ (d fuel k : Nat) (m : mS), k + d = c → d < fuel → mfr m0 m → ∃ m', fX8_primes_L9 fuel (nI (fb_ct (pri (fun j => mB m0 (9 + 7 * 0 + j)) c) k)) (nI k) m = some (nI (fb_ct (pri (fun j => mB m0 (9 + 7 * 0 + j)) c) c), m') ∧ mfr m0 m' := by
  intro d
  induction d with
  | zero =>
    intro fuel k m h hf hm
    obtain ⟨l, rfl⟩ : ∃ l, fuel = l + 1 := ⟨fuel - 1, by omega⟩
    have : k = c := by omega
    subst this
    rw [fX8_primes_L9, mI_eq hm.2.1, hI, if_pos (nI_le (by omega) (by omega))]
    exact ⟨m, rfl, hm⟩
  | succ d ih =>
    intro fuel k m h hf hm
    obtain ⟨l, rfl⟩ : ∃ l, fuel = l + 1 := ⟨fuel - 1, by omega⟩
    obtain ⟨m1, k1, k2⟩ := m_isPrime (i := k) hm.1 hc ((mI_eq hm.2.1 1).trans hI) (by omega)
    rw [mfr_pri hm hc (by omega)] at k1
    rw [fX8_primes_L9, mI_eq hm.2.1, hI, if_neg (nI_ge (by omega) (by omega)), k1, nI_1, nI_1, Int32.add_zero]
    simp only [Option.bind_some, if_bi]
    have hk := ih l (k + 1) m1 (by omega) (by omega) (mfr_trans hm k2)
    rw [ct_succ] at hk
    cases a : pri (fun j => mB m0 (9 + 7 * 0 + j)) c k
    · rw [a] at hk
      exact hk
    · rw [a] at hk
      exact hk
theorem m_primesIn_L {c z : Nat} {m0 : mS} (hz : z ≠ 23) (hc : c ≤ 7) (hI : mI m0 1 = nI c) : ∀ (d fuel k : Nat) (m : mS), k + d = c → d < fuel → mfr m0 m → ∃ m', fX8_primesIn_L4 z fuel (nI (fb_ct (fun j => inn (mB m0 (9 + 7 * 0 + j)) (mB m0 z) && pri (fun j => mB m0 (9 + 7 * 0 + j)) c j) k)) (nI k) m = some (nI (fb_ct (fun j => inn (mB m0 (9 + 7 * 0 + j)) (mB m0 z) && pri (fun j => mB m0 (9 + 7 * 0 + j)) c j) c), m') ∧ mfr m0 m' := by
  intro d
  induction d with
  | zero =>
    intro fuel k m h hf hm
    obtain ⟨l, rfl⟩ : ∃ l, fuel = l + 1 := ⟨fuel - 1, by omega⟩
    have : k = c := by omega
    subst this
    rw [fX8_primesIn_L4, mI_eq hm.2.1, hI, if_pos (nI_le (by omega) (by omega))]
    exact ⟨m, rfl, hm⟩
  | succ d ih =>
    intro fuel k m h hf hm
    obtain ⟨l, rfl⟩ : ∃ l, fuel = l + 1 := ⟨fuel - 1, by omega⟩
    have k7 : k < 7 := by omega
    obtain ⟨m1, k1, k2⟩ := m_isPrime (i := k) hm.1 hc ((mI_eq hm.2.1 1).trans hI) (by omega)
    rw [mfr_pri hm hc (by omega)] at k1
    rw [fX8_primesIn_L4, mI_eq hm.2.1, hI, if_neg (nI_ge (by omega) (by omega)), if_pos (vin7 k7), cl7 k7, m_lies, hm.2.2 _ (by omega), hm.2.2 _ hz]
    simp only [Option.bind_some, if_bi, k1, Int32.add_zero, nI_1]
    have hk := ih l (k + 1)
    rw [ct_succ] at hk
    cases b : inn (mB m0 (9 + 7 * 0 + k)) (mB m0 z)
    · simp only [b, Bool.false_and, Bool.false_eq_true, if_false] at hk ⊢
      exact hk m (by omega) (by omega) hm
    · cases a : pri (fun j => mB m0 (9 + 7 * 0 + j)) c k
      · simp only [a, b, Bool.and_false, Bool.false_eq_true, if_false, if_true] at hk ⊢
        exact hk m1 (by omega) (by omega) (mfr_trans hm k2)
      · simp only [a, b, Bool.and_true, if_true] at hk ⊢
        exact hk m1 (by omega) (by omega) (mfr_trans hm k2)
theorem ct_pad {P : Nat → Bool} {c n : Nat} (h : c ≤ n) : fb_ct (fun j => decide (j < c) && P j) n = fb_ct P c := by
  obtain ⟨d, rfl⟩ : ∃ d, n = c + d := ⟨n - c, by omega⟩
  have z : fb_ct (fun k => decide (c + k < c) && P (c + k)) d = 0 := fb_ct_zero.mpr (fun k _ => by rw [decide_eq_false (show ¬ c + k < c by omega), Bool.false_and])
  rw [fb_ct_split, z, Nat.add_zero]
  exact fb_ct_cong (fun k hk => by rw [decide_eq_true hk, Bool.true_and])
theorem aeq_15 {a a' : cS} (h : ∀ n, n ≠ 15 → cB a' n = cB a n) (h2 : a'.2.2 = a.2.2) : aeq a a' := ⟨fun n hn => h n (by omega), sI_eq h2 0, sI_eq h2 2, sT_eq h2⟩
theorem fam_pri {a : cS} {m : mS} {c : Nat} (f3 : ∀ j, j < c → cB a (8 + j) = mB m (9 + j)) {i : Nat} (hi : i < c) : pri (fun j => mB m (9 + 7 * 0 + j)) c i = pri (fun j => cB a (8 + 8 * 0 + j)) c i := pri_cong (fun j hj => (fam_eq f3 j hj).symm) hi
theorem g_primes {a : cS} {m : mS} (h : Rel a m) : Meet0 (fX7_primes a) (fX8_primes m) := by
  obtain ⟨c, hc, f1, f2, f3⟩ := h.2.2.2.1
  obtain ⟨M, a', q1, q2, q3, q4, q5, q6⟩ := p_primes hc h.1 f1
  obtain ⟨m', k1, k2⟩ := m_primes_L (m0 := vI m 0 0) hc f2 c 1100 0 (vI m 0 0) (by omega) (by omega) (mfr_refl (Vm_vI h.2.1 0 0))
  refine ⟨nI (fb_ct (pri (fun j => cB a (8 + 8 * 0 + j)) c) c), a', m', ?_, ?_, Rel_keep (Rel_v0 h 0) (aeq_15 q4 q3) (mfr_meq k2) q5 k2.1⟩
  · unfold fX7_primes
    rw [q2]
    simp only [Option.bind_some]
    rw [bc7 a' M q1, ← ct_pad (n := 7) hc]
    exact congrArg (fun z => some (nI z, a')) (fb_ct_cong (fun j _ => q6 j))
  · unfold fX8_primes
    refine (show fX8_primes_L9 1100 0 0 (vI m 0 0) = _ from k1).trans ?_
    exact congrArg (fun z => some (nI z, m')) (fb_ct_cong (fun j hj => fam_pri (m := vI m 0 0) f3 hj))
theorem g_primesWithin {a : cS} {m : mS} {ee : Nat} (h : Rel a m) (p : Int32) : Meets 1 ee (fX7_primesWithin p a) (fX8_primesWithin p m) := by
  rcases set_or p with ⟨i, hi, rfl⟩ | ⟨s1, s2⟩
  · obtain ⟨s1, s2⟩ := set_in hi
    obtain ⟨c, hc, f1, f2, f3⟩ := h.2.2.2.1
    obtain ⟨M, a', q1, q2, q3, q4, q5, q6⟩ := p_primes hc h.1 f1
    obtain ⟨M2, r1, r2, r3⟩ := p_pw i hc ((sI_eq q3 0).trans f1) q1
    obtain ⟨m', k1, k2⟩ := m_primesIn_L (z := i) (m0 := vI m 0 0) (by omega) hc f2 c 1100 0 (vI m 0 0) (by omega) (by omega) (mfr_refl (Vm_vI h.2.1 0 0))
    refine Meets.ok (r := nI (fb_ct (fun j => inn (cB a (8 + 8 * 0 + j)) (cB a i) && pri (fun j => cB a (8 + 8 * 0 + j)) c j) c)) (a' := a') (m' := m') ?_ ?_ (mI_eq k2.2.1 0) (Rel_keep (Rel_v0 h 0) (aeq_15 q4 q3) (mfr_meq k2) q5 k2.1)
    · unfold fX7_primesWithin
      simp only [s1, Option.bind_some, Sum.elim_inr, if_pos (lt8 hi), q2, r2]
      rw [bc7 a' M2 r1, ← ct_pad (n := 7) hc]
      refine congrArg (fun z => some (Sum.inr (nI z, a'))) (fb_ct_cong (fun j hj => ?_))
      rw [r3 j, q6 j]
      by_cases e : j < c
      · rw [decide_eq_true e, Bool.true_and, Bool.true_and, Bool.true_and, q4 _ (by omega), q4 _ (by omega), Bool.and_comm]
      · rw [decide_eq_false e, Bool.false_and, Bool.false_and, Bool.false_and]
    · unfold fX8_primesWithin
      simp only [s2, pass_0, Option.bind_some, one_0, vin8 hi, cl8 hi, if_true]
      rw [show fX8_primesIn i (vI m 0 0) = _ from k1]
      simp only [Option.bind_some]
      refine congrArg (fun z => some (nI z, m')) (fb_ct_cong (fun j hj => ?_))
      rw [fam_pri (m := vI m 0 0) f3 hj, ← fam_eq (m := vI m 0 0) f3 j hj, mB_vI, ← h.2.2.1 i hi]
  · refine Meets.e1 (r := 0) h ?_ ?_
    · unfold fX7_primesWithin
      simp only [s1, Option.bind_some, Sum.elim_inl]
    · unfold fX8_primesWithin
      simp only [s2, pass_1, Option.bind_some, if_true]
/-! familyErrors -/
noncomputable def isU (f : Nat → BS) (c i : Nat) : Bool := same (un f (fun j => pri f c j && inn (f j) (f i)) c) (f i)
noncomputable def sameP (f : Nat → BS) (c i j : Nat) : Bool := pd (∀ k, k < c → pri f c k = true → inn (f k) (f i) = inn (f k) (f j))
theorem sameP_comm (f : Nat → BS) (c i j : Nat) : sameP f c i j = sameP f c j i := pd_congr ⟨fun h k hk hp => (h k hk hp).symm, fun h k hk hp => (h k hk hp).symm⟩
theorem isU_cong {f g : Nat → BS} {c i : Nat} (h : ∀ j, j < c → f j = g j) (hi : i < c) : isU f c i = isU g c i := by
  unfold isU
  rw [h i hi, un_cong (fun j hj => by show (pri f c j && inn (f j) (g i)) = (pri g c j && inn (g j) (g i)); rw [h j hj, pri_cong h hj]) h]
theorem sameP_cong {f g : Nat → BS} {c i j : Nat} (h : ∀ j, j < c → f j = g j) (hi : i < c) (hj : j < c) : sameP f c i j = sameP g c i j := by
  unfold sameP
  refine pd_congr (forall_congr' fun k => ?_)
  constructor
  · intro z hk hp
    rw [← pri_cong h hk] at hp
    rw [← h k hk, ← h i hi, ← h j hj]
    exact z hk hp
  · intro z hk hp
    rw [pri_cong h hk] at hp
    rw [h k hk, h i hi, h j hj]
    exact z hk hp
def t1 (u : Nat → Bool) (D : Nat → Nat → Bool) (c : Nat) : Nat → Nat
  | 0 => 0
  | i + 1 => t1 u D c i + (if u i then 0 else 1) + fb_ct (fun j => decide (i < j) && D i j) c
def t2 (u : Nat → Bool) (D : Nat → Nat → Bool) : Nat → Nat
  | 0 => 0
  | i + 1 => t2 u D i + (if u i then 0 else 1) + fb_ct (fun j => D i j) i
theorem t1_step (u : Nat → Bool) (D : Nat → Nat → Bool) (n : Nat) : ∀ i, i ≤ n → t1 u D (n + 1) i = t1 u D n i + fb_ct (fun l => D l n) i
  | 0, _ => rfl
  | i + 1, h => by
    rw [t1, t1, t1_step u D n i (by omega), fb_ct_succ, fb_ct_succ, decide_eq_true (show i < n by omega), Bool.true_and]
    omega
theorem t1_t2 (u : Nat → Bool) (D : Nat → Nat → Bool) (hD : ∀ i j, D i j = D j i) : ∀ n, t1 u D n n = t2 u D n
  | 0 => rfl
  | n + 1 => by
    have z : fb_ct (fun j => decide (n < j) && D n j) (n + 1) = 0 := fb_ct_zero.mpr (fun k hk => by rw [decide_eq_false (show ¬ n < k by omega), Bool.false_and])
    have e : fb_ct (fun l => D l n) n = fb_ct (fun j => D n j) n := fb_ct_cong (fun k _ => hD k n)
    rw [t1, t2, t1_step u D n n (Nat.le_refl _), t1_t2 u D hD n, z, e]
    omega
theorem mask_eq {M N : Nat} : M = N ↔ ∀ j, M.testBit j = N.testBit j := ⟨fun h j => by rw [h], fun h => Nat.eq_of_testBit_eq h⟩
theorem p_err_L {c i M Mi : Nat} {s : cS} (hc : c ≤ 7) (hI : sI s 0 = nI c) (hM : M < 128) (hMi : Mi < 128) (D : Nat → Bool) (hD : ∀ j, j < c → ∀ N, N < 128 → (∀ l, N.testBit l = (decide (l < c) && M.testBit l && inn (cB s (8 + 8 * 0 + l)) (cB s (8 + 8 * 0 + j)))) → (Mi = N ↔ D j = true)) (k0 : Int32 → cS → Option (Int32 × cS)) (e0 : Nat) : ∀ (d fuel j : Nat), j + d = c → i < j → d < fuel → fX0_errors_L48 0 (nI M) (nI i) (nI Mi) k0 fuel (nI (e0 + fb_ct (fun l => decide (i < l) && D l) j)) (nI j) s = k0 (nI (e0 + fb_ct (fun l => decide (i < l) && D l) c)) s := by
  intro d
  induction d with
  | zero =>
    intro fuel j h hi hf
    obtain ⟨l, rfl⟩ : ∃ l, fuel = l + 1 := ⟨fuel - 1, by omega⟩
    have : j = c := by omega
    subst this
    rw [fX0_errors_L48, hI, if_pos (nI_le (by omega) (by omega))]
  | succ d ih =>
    intro fuel j h hi hf
    obtain ⟨l, rfl⟩ : ∃ l, fuel = l + 1 := ⟨fuel - 1, by omega⟩
    have j7 : j < 7 := by omega
    obtain ⟨N, q1, q2, q3⟩ := p_pw (F := 0) (8 + 8 * 0 + j) hc hI hM
    rw [fX0_errors_L48, hI, if_neg (nI_ge (by omega) (by omega)), if_pos (vin7 j7), cl7 j7, q2]
    simp only [Option.bind_some, nI_1]
    have hk := ih l (j + 1) (by omega) (by omega) (by omega)
    rw [ct_succ, decide_eq_true hi, Bool.true_and] at hk
    have e := hD j (by omega) N q1 q3
    rw [← hk]
    by_cases x : Mi = N
    · rw [if_pos (by rw [x]), e.mp x]
      rfl
    · rw [if_neg (fun z => x ((nI_eq (by omega) (by omega)).mp z)), ts_nt' (fun z => x (e.mpr z))]
      rfl
theorem p_err_L2 {c M : Nat} {s0 : cS} (hc : c ≤ 7) (hI : sI s0 0 = nI c) (hM : M < 128) (hb : ∀ j, M.testBit j = (decide (j < c) && pri (fun j => cB s0 (8 + 8 * 0 + j)) c j)) : ∀ (d fuel i : Nat) (s : cS), i + d = c → d < fuel → s.2.2 = s0.2.2 → (∀ n, n ≠ 15 → cB s n = cB s0 n) → Wf s → ∃ s', fX0_errors_L9 0 (nI M) fuel (nI (t1 (isU (fun j => cB s0 (8 + 8 * 0 + j)) c) (sameP (fun j => cB s0 (8 + 8 * 0 + j)) c) c i)) (nI i) s = some (nI (t1 (isU (fun j => cB s0 (8 + 8 * 0 + j)) c) (sameP (fun j => cB s0 (8 + 8 * 0 + j)) c) c c), s') ∧ s'.2.2 = s0.2.2 ∧ (∀ n, n ≠ 15 → cB s' n = cB s0 n) ∧ Wf s' := by
  intro d
  induction d with
  | zero =>
    intro fuel i s h hf h2 hB W
    obtain ⟨l, rfl⟩ : ∃ l, fuel = l + 1 := ⟨fuel - 1, by omega⟩
    have : i = c := by omega
    subst this
    rw [fX0_errors_L9, sI_eq h2, hI, if_pos (nI_le (by omega) (by omega))]
    exact ⟨s, rfl, h2, hB, W⟩
  | succ d ih =>
    intro fuel i s h hf h2 hB W
    obtain ⟨l, rfl⟩ : ∃ l, fuel = l + 1 := ⟨fuel - 1, by omega⟩
    have i7 : i < 7 := by omega
    have hIs : sI s 0 = nI c := (sI_eq h2 0).trans hI
    obtain ⟨Mi, q1, q2, q3⟩ := p_pw (F := 0) (8 + 8 * 0 + i) hc hIs hM
    obtain ⟨s1, r1, r2, r3⟩ := p_un (F := 0) (M := Mi) (i := i) (by decide) hc q1 (by omega) hIs
    have W2 : Wf s1 := Wf_up W (un_wf (fun j => W _) _ _) r3
    have B2 : ∀ n, n ≠ 15 → cB s1 n = cB s0 n := fun n hn => by rw [r3, zu_ne _ hn]; exact hB n hn
    have ep : same (un (fun j => cB s (8 + 8 * 0 + j)) (fun j => Mi.testBit j) c) (cB s (8 + 8 * 0 + i)) = isU (fun j => cB s0 (8 + 8 * 0 + j)) c i := by
      unfold isU
      rw [hB _ (by omega)]
      refine congrArg (fun z => same z (cB s0 (8 + 8 * 0 + i))) (un_cong (fun j hj => ?_) (fun j hj => hB _ (by omega)))
      rw [q3 j, hb j, decide_eq_true hj, Bool.true_and, Bool.true_and, hB _ (by omega), hB _ (by omega)]
    have hD : ∀ j, j < c → ∀ N, N < 128 → (∀ l, N.testBit l = (decide (l < c) && M.testBit l && inn (cB s1 (8 + 8 * 0 + l)) (cB s1 (8 + 8 * 0 + j)))) → (Mi = N ↔ sameP (fun j => cB s0 (8 + 8 * 0 + j)) c i j = true) := by
      intro j hj N hN hb2
      unfold sameP
      rw [pd_iff, mask_eq]
      constructor
      · intro z k hk hp
        have := z k
        rw [q3 k, hb2 k, hb k, decide_eq_true hk, Bool.true_and, Bool.true_and, hp, Bool.true_and, Bool.true_and, hB _ (by omega), hB _ (by omega), B2 _ (by omega), B2 _ (by omega)] at this
        exact this
      · intro z k
        rw [q3 k, hb2 k, hb k]
        by_cases hk : k < c
        · rw [decide_eq_true hk, Bool.true_and, Bool.true_and, hB _ (by omega), hB _ (by omega), B2 _ (by omega), B2 _ (by omega)]
          cases hp : pri (fun j => cB s0 (8 + 8 * 0 + j)) c k
          · rfl
          · rw [Bool.true_and, Bool.true_and]
            exact z k hk hp
        · rw [decide_eq_false hk]
          rfl
    have hIs1 : sI s1 0 = nI c := (sI_eq r2 0).trans hIs
    rw [fX0_errors_L9, hIs, if_neg (nI_ge (by omega) (by omega)), if_pos (vin7 i7), cl7 i7, q2]
    simp only [Option.bind_some, r1, ep, if_bi, nI_1]
    obtain ⟨s', g1, g2, g3, g4⟩ := ih l (i + 1) s1 (by omega) (by omega) (r2.trans h2) B2 W2
    refine ⟨s', ?_, g2, g3, g4⟩
    rw [t1] at g1
    have z0 : fb_ct (fun l => decide (i < l) && sameP (fun j => cB s0 (8 + 8 * 0 + j)) c i l) (i + 1) = 0 := fb_ct_zero.mpr (fun k hk => by rw [decide_eq_false (by omega), Bool.false_and])
    cases a : isU (fun j => cB s0 (8 + 8 * 0 + j)) c i
    · rw [a] at g1
      simp only [Bool.false_eq_true, if_false] at g1 ⊢
      have := p_err_L (i := i) (Mi := Mi) hc hIs1 hM q1 (fun j => sameP (fun j => cB s0 (8 + 8 * 0 + j)) c i j) hD (fun y2_8 s8 => fX0_errors_L9 0 (nI M) l y2_8 (nI (i + 1)) s8) (t1 (isU (fun j => cB s0 (8 + 8 * 0 + j)) c) (sameP (fun j => cB s0 (8 + 8 * 0 + j)) c) c i + 1) (c - (i + 1)) 1100 (i + 1) (by omega) (by omega) (by omega)
      rw [z0, Nat.add_zero] at this
      exact this.trans g1
    · rw [a] at g1
      simp only [if_true, Nat.add_zero] at g1 ⊢
      have := p_err_L (i := i) (Mi := Mi) hc hIs1 hM q1 (fun j => sameP (fun j => cB s0 (8 + 8 * 0 + j)) c i j) hD (fun y2_8 s8 => fX0_errors_L9 0 (nI M) l y2_8 (nI (i + 1)) s8) (t1 (isU (fun j => cB s0 (8 + 8 * 0 + j)) c) (sameP (fun j => cB s0 (8 + 8 * 0 + j)) c) c i) (c - (i + 1)) 1100 (i + 1) (by omega) (by omega) (by omega)
      rw [z0, Nat.add_zero] at this
      exact this.trans g1
/-- the reference's rows 23 and 64 are its own -/
def mf2 (m m' : mS) : Prop := Vm m' ∧ m'.2 = m.2 ∧ ∀ r, r ≠ 23 → r ≠ 64 → mB m' r = mB m r
theorem mf2_of {m m' : mS} (h : mfr m m') : mf2 m m' := ⟨h.1, h.2.1, fun r hr _ => h.2.2 r hr⟩
theorem mf2_trans {a b c : mS} (h : mf2 a b) (g : mf2 b c) : mf2 a c := ⟨g.1, g.2.1.trans h.2.1, fun r hr h2 => (g.2.2 r hr h2).trans (h.2.2 r hr h2)⟩
theorem mf2_row {m m' : mS} (h : mf2 m m') {c : Nat} (hc : c ≤ 7) : ∀ j, j < c → mB m' (9 + 7 * 0 + j) = mB m (9 + 7 * 0 + j) := fun j hj => h.2.2 _ (by omega) (by omega)
theorem m_un_L {c i : Nat} {m0 : mS} (hc : c ≤ 7) (hI : mI m0 1 = nI c) (hi : i < c) : ∀ (d fuel k : Nat) (m : mS), k + d = c → d < fuel → mf2 m0 m → mB m 64 = un (fun j => mB m0 (9 + 7 * 0 + j)) (fun j => pri (fun j => mB m0 (9 + 7 * 0 + j)) c j && inn (mB m0 (9 + 7 * 0 + j)) (mB m0 (9 + 7 * 0 + i))) k → ∃ m', fX8_unites_L11 (9 + 7 * 0 + i) (-1) 1 64 fuel (nI k) m = some m' ∧ mf2 m0 m' ∧ mB m' 64 = un (fun j => mB m0 (9 + 7 * 0 + j)) (fun j => pri (fun j => mB m0 (9 + 7 * 0 + j)) c j && inn (mB m0 (9 + 7 * 0 + j)) (mB m0 (9 + 7 * 0 + i))) c := by
  intro d
  induction d with
  | zero =>
    intro fuel k m h hf hm hB
    obtain ⟨l, rfl⟩ : ∃ l, fuel = l + 1 := ⟨fuel - 1, by omega⟩
    have : k = c := by omega
    subst this
    rw [fX8_unites_L11, mI_eq hm.2.1, hI, if_pos (nI_le (by omega) (by omega))]
    exact ⟨m, rfl, hm, hB⟩
  | succ d ih =>
    intro fuel k m h hf hm hB
    obtain ⟨l, rfl⟩ : ∃ l, fuel = l + 1 := ⟨fuel - 1, by omega⟩
    have k7 : k < 7 := by omega
    have hIm : mI m 1 = nI c := (mI_eq hm.2.1 1).trans hI
    rw [fX8_unites_L11, hIm, if_neg (nI_ge (by omega) (by omega)), if_neg (nI_m1 (by omega)), if_pos (vin7 k7), cl7 k7, m_lies, nI_1]
    simp only [Option.bind_some, if_bi, one_0]
    rw [mf2_row hm hc k (by omega), mf2_row hm hc i hi]
    have hk := ih l (k + 1)
    rw [un] at hk
    cases a : inn (mB m0 (9 + 7 * 0 + k)) (mB m0 (9 + 7 * 0 + i))
    · rw [a, Bool.and_false] at hk
      exact hk m (by omega) (by omega) hm hB
    · rw [a, Bool.and_true] at hk
      rw [if_pos rfl]
      obtain ⟨m1, k1, k2⟩ := m_isPrime (i := k) hm.1 hc hIm (by omega)
      rw [pri_cong (mf2_row hm hc) (by omega)] at k1
      rw [k1]
      simp only [Option.bind_some, if_bi]
      have hm1 := mf2_trans hm (mf2_of k2)
      have h64 : mB m1 64 = mB m 64 := k2.2.2 64 (by decide)
      cases b : pri (fun j => mB m0 (9 + 7 * 0 + j)) c k
      · rw [b] at hk
        exact hk m1 (by omega) (by omega) hm1 (h64.trans hB)
      · rw [b] at hk
        rw [if_pos rfl] at hk ⊢
        obtain ⟨m2, g1, g2, g3, g4⟩ := m_joins 64 (9 + 7 * 0 + k) 0 64 hm1.1
        rw [if_pos (vin7 k7), g1]
        simp only [Option.bind_some]
        refine hk m2 (by omega) (by omega) (mf2_trans hm1 ⟨g2, g4, fun r hr h2 => by rw [g3, zu_ne _ h2]⟩) ?_
        rw [g3, zu_at, h64, hB, mf2_row hm1 hc k (by omega)]
theorem bi_or0 (x : Bool) : bi x ||| 0 = bi x := by cases x <;> decide
theorem bi_or1 (x : Bool) : bi x ||| 1 = bi true := by cases x <;> decide
theorem m_err_L {c a b : Nat} {m0 : mS} (e0 : Int32) (hc : c ≤ 7) (hI : mI m0 1 = nI c) (ha : a < c) (hb : b < c) (k0 : Int32 → mS → Option (Int32 × mS)) : ∀ (d fuel k : Nat) (m : mS) (x : Bool), k + d = c → d < fuel → mf2 m0 m → (x = true ↔ ∃ j, j < k ∧ pri (fun j => mB m0 (9 + 7 * 0 + j)) c j = true ∧ inn (mB m0 (9 + 7 * 0 + j)) (mB m0 (9 + 7 * 0 + a)) ≠ inn (mB m0 (9 + 7 * 0 + j)) (mB m0 (9 + 7 * 0 + b))) → ∃ m', fX8_familyErrors_L70 e0 (nI a) (nI b) k0 fuel (bi x) (nI k) m = k0 (bi (!sameP (fun j => mB m0 (9 + 7 * 0 + j)) c a b)) m' ∧ mf2 m0 m' := by
  intro d
  induction d with
  | zero =>
    intro fuel k m x h hf hm hx
    obtain ⟨l, rfl⟩ : ∃ l, fuel = l + 1 := ⟨fuel - 1, by omega⟩
    have : k = c := by omega
    subst this
    rw [fX8_familyErrors_L70, mI_eq hm.2.1, hI, if_pos (nI_le (by omega) (by omega))]
    refine ⟨m, ?_, hm⟩
    have : x = !sameP (fun j => mB m0 (9 + 7 * 0 + j)) k a b := by
      apply bool_ext
      rw [hx, Bool.not_eq_true', ← Bool.not_eq_true, sameP, pd_iff]
      constructor
      · rintro ⟨j, h1, h2, h3⟩ z
        exact h3 (z j h1 h2)
      · intro z
        apply Classical.byContradiction
        intro w
        apply z
        intro j h1 h2
        apply Classical.byContradiction
        intro h3
        exact w ⟨j, h1, h2, h3⟩
    rw [this]
  | succ d ih =>
    intro fuel k m x h hf hm hx
    obtain ⟨l, rfl⟩ : ∃ l, fuel = l + 1 := ⟨fuel - 1, by omega⟩
    have k7 : k < 7 := by omega
    have a7 : a < 7 := by omega
    have b7 : b < 7 := by omega
    have hIm : mI m 1 = nI c := (mI_eq hm.2.1 1).trans hI
    obtain ⟨m1, k1, k2⟩ := m_isPrime (i := k) hm.1 hc hIm (by omega)
    rw [pri_cong (mf2_row hm hc) (by omega)] at k1
    have hm1 := mf2_trans hm (mf2_of k2)
    have ra := mf2_row hm1 hc a ha
    have rb := mf2_row hm1 hc b hb
    have rk := mf2_row hm1 hc k (by omega)
    rw [fX8_familyErrors_L70, hIm, if_neg (nI_ge (by omega) (by omega)), k1]
    simp only [Option.bind_some, if_bi, vin7 k7, vin7 a7, vin7 b7, cl7 k7, cl7 a7, cl7 b7, if_true, m_lies, nI_1, bi_or0, bi_or1, bi_inj]
    rw [ra, rb, rk]
    cases p : pri (fun j => mB m0 (9 + 7 * 0 + j)) c k
    · simp only [Bool.false_eq_true, if_false]
      refine ih l (k + 1) m1 x (by omega) (by omega) hm1 (hx.trans ?_)
      constructor
      · rintro ⟨j, h1, h2, h3⟩
        exact ⟨j, by omega, h2, h3⟩
      · rintro ⟨j, h1, h2, h3⟩
        refine ⟨j, ?_, h2, h3⟩
        by_cases e : j = k
        · rw [e, p] at h2
          exact Bool.noConfusion h2
        · omega
    · simp only [if_true]
      by_cases e2 : inn (mB m0 (9 + 7 * 0 + k)) (mB m0 (9 + 7 * 0 + a)) = inn (mB m0 (9 + 7 * 0 + k)) (mB m0 (9 + 7 * 0 + b))
      · rw [if_pos e2]
        refine ih l (k + 1) m1 x (by omega) (by omega) hm1 (hx.trans ?_)
        constructor
        · rintro ⟨j, h1, h2, h3⟩
          exact ⟨j, by omega, h2, h3⟩
        · rintro ⟨j, h1, h2, h3⟩
          refine ⟨j, ?_, h2, h3⟩
          by_cases e : j = k
          · rw [e] at h3
            exact absurd e2 h3
          · omega
      · rw [if_neg e2]
        refine ih l (k + 1) m1 true (by omega) (by omega) hm1 ?_
        exact ⟨fun _ => ⟨k, by omega, p, e2⟩, fun _ => rfl⟩
theorem m_err_L2 {c a : Nat} {m0 : mS} (hc : c ≤ 7) (hI : mI m0 1 = nI c) (ha : a < c) (k0 : Int32 → mS → Option (Int32 × mS)) (e0 : Nat) : ∀ (d fuel b : Nat) (m : mS), b + d = a → d < fuel → mf2 m0 m → ∃ m', fX8_familyErrors_L59 (nI a) k0 fuel (nI (e0 + fb_ct (fun j => sameP (fun j => mB m0 (9 + 7 * 0 + j)) c a j) b)) (nI b) m = k0 (nI (e0 + fb_ct (fun j => sameP (fun j => mB m0 (9 + 7 * 0 + j)) c a j) a)) m' ∧ mf2 m0 m' := by
  intro d
  induction d with
  | zero =>
    intro fuel b m h hf hm
    obtain ⟨l, rfl⟩ : ∃ l, fuel = l + 1 := ⟨fuel - 1, by omega⟩
    have : b = a := by omega
    subst this
    rw [fX8_familyErrors_L59, if_pos (nI_le (by omega) (by omega))]
    exact ⟨m, rfl, hm⟩
  | succ d ih =>
    intro fuel b m h hf hm
    obtain ⟨l, rfl⟩ : ∃ l, fuel = l + 1 := ⟨fuel - 1, by omega⟩
    rw [fX8_familyErrors_L59, if_neg (nI_ge (by omega) (by omega))]
    obtain ⟨m1, g1, g2⟩ := m_err_L (a := a) (b := b) (nI (e0 + fb_ct (fun j => sameP (fun j => mB m0 (9 + 7 * 0 + j)) c a j) b)) hc hI ha (by omega) (fun y4_12 s12 => if y4_12 = 0 then (fX8_familyErrors_L59 (nI a) k0 l (nI (e0 + fb_ct (fun j => sameP (fun j => mB m0 (9 + 7 * 0 + j)) c a j) b) + 1) (nI b + 1) s12) else (fX8_familyErrors_L59 (nI a) k0 l (nI (e0 + fb_ct (fun j => sameP (fun j => mB m0 (9 + 7 * 0 + j)) c a j) b) + 0) (nI b + 1) s12)) c 1100 0 m false (by omega) (by omega) hm ⟨fun z => Bool.noConfusion z, fun ⟨j, hj, _⟩ => absurd hj (Nat.not_lt_zero j)⟩
    obtain ⟨m2, r1, r2⟩ := ih l (b + 1) m1 (by omega) (by omega) g2
    refine ⟨m2, ?_, r2⟩
    refine Eq.trans (show _ = _ from g1) ?_
    rw [if_bi, ← r1, ct_succ, nI_1 b, Int32.add_zero, nI_1]
    cases sameP (fun j => mB m0 (9 + 7 * 0 + j)) c a b <;> rfl
theorem m_err_L3 {c : Nat} {m0 : mS} (hc : c ≤ 7) (hI : mI m0 1 = nI c) : ∀ (d fuel i : Nat) (m : mS), i + d = c → d < fuel → mf2 m0 m → ∃ m', fX8_familyErrors_L9 fuel (nI (t2 (isU (fun j => mB m0 (9 + 7 * 0 + j)) c) (sameP (fun j => mB m0 (9 + 7 * 0 + j)) c) i)) (nI i) m = some (nI (t2 (isU (fun j => mB m0 (9 + 7 * 0 + j)) c) (sameP (fun j => mB m0 (9 + 7 * 0 + j)) c) c), m') ∧ mf2 m0 m' := by
  intro d
  induction d with
  | zero =>
    intro fuel i m h hf hm
    obtain ⟨l, rfl⟩ : ∃ l, fuel = l + 1 := ⟨fuel - 1, by omega⟩
    have : i = c := by omega
    subst this
    rw [fX8_familyErrors_L9, mI_eq hm.2.1, hI, if_pos (nI_le (by omega) (by omega))]
    exact ⟨m, rfl, hm⟩
  | succ d ih =>
    intro fuel i m h hf hm
    obtain ⟨l, rfl⟩ : ∃ l, fuel = l + 1 := ⟨fuel - 1, by omega⟩
    have i7 : i < 7 := by omega
    have hIm : mI m 1 = nI c := (mI_eq hm.2.1 1).trans hI
    obtain ⟨m1, k1, k2, k3, k4⟩ := m_joins (9 + 7 * 0 + i) (9 + 7 * 0 + i) 2 64 hm.1
    rw [jn2_self] at k3
    have hm1 : mf2 m0 m1 := mf2_trans hm ⟨k2, k4, fun r _ h2 => by rw [k3]; exact zu_ne _ h2 _⟩
    have x64 : mB m1 64 = fun _ => false := by rw [k3]; exact zu_at _ _ _
    obtain ⟨m2, g1, g2, g3⟩ := m_un_L (i := i) (m0 := m0) hc hI (by omega) c 1100 0 m1 (by omega) (by omega) hm1 (by rw [un]; exact x64)
    have eu : fX8_unites (9 + 7 * 0 + i) (-1) 1 64 m = some m2 := by
      unfold fX8_unites
      rw [k1]
      rw [nI_0] at g1
      exact g1
    have es : fX8_areSame 64 (9 + 7 * 0 + i) m2 = some (bi (isU (fun j => mB m0 (9 + 7 * 0 + j)) c i), m2) := by
      rw [m_areSame _ _ g2.1, g3, mf2_row g2 hc i (by omega)]
      rfl
    rw [fX8_familyErrors_L9, hIm, if_neg (nI_ge (by omega) (by omega)), if_pos (vin7 i7), cl7 i7, eu]
    simp only [Option.bind_some, vin7 i7, if_true, es, if_bi, nI_1, Int32.add_zero]
    cases u : isU (fun j => mB m0 (9 + 7 * 0 + j)) c i
    · simp only [Bool.false_eq_true, if_false]
      obtain ⟨m3, r1, r2⟩ := m_err_L2 (a := i) (m0 := m0) hc hI (by omega) (fun y1_13 s13 => fX8_familyErrors_L9 l y1_13 (nI (i + 1)) s13) (t2 (isU (fun j => mB m0 (9 + 7 * 0 + j)) c) (sameP (fun j => mB m0 (9 + 7 * 0 + j)) c) i + 1) i 1100 0 m2 (by omega) (by omega) g2
      obtain ⟨m4, s1, s2⟩ := ih l (i + 1) m3 (by omega) (by omega) r2
      simp only [fb_ct, Nat.add_zero, nI_0] at r1
      refine ⟨m4, r1.trans (Eq.trans ?_ s1), s2⟩
      rw [t2, u]
      rfl
    · simp only [if_true]
      obtain ⟨m3, r1, r2⟩ := m_err_L2 (a := i) (m0 := m0) hc hI (by omega) (fun y1_13 s13 => fX8_familyErrors_L9 l y1_13 (nI (i + 1)) s13) (t2 (isU (fun j => mB m0 (9 + 7 * 0 + j)) c) (sameP (fun j => mB m0 (9 + 7 * 0 + j)) c) i) i 1100 0 m2 (by omega) (by omega) g2
      obtain ⟨m4, s1, s2⟩ := ih l (i + 1) m3 (by omega) (by omega) r2
      simp only [fb_ct, Nat.add_zero, nI_0] at r1
      refine ⟨m4, r1.trans (Eq.trans ?_ s1), s2⟩
      rw [t2, u]
      rfl
theorem mf2_meq {m m' : mS} (h : mf2 m m') : meq m m' := ⟨fun r hr _ => h.2.2 r (by omega) (by omega), mI_eq h.2.1 1, mI_eq h.2.1 3, mT_eq h.2.1⟩
theorem t1_cong {u v : Nat → Bool} {D E : Nat → Nat → Bool} {c : Nat} (hu : ∀ i, i < c → u i = v i) (hD : ∀ i j, i < c → j < c → D i j = E i j) : ∀ n, n ≤ c → t1 u D c n = t1 v E c n
  | 0, _ => rfl
  | n + 1, h => by
    rw [t1, t1, t1_cong hu hD n (by omega), hu n (by omega), fb_ct_cong (p := fun j => decide (n < j) && D n j) (q := fun j => decide (n < j) && E n j) (fun k hk => by rw [hD n k (by omega) hk])]
theorem g_familyErrors {a : cS} {m : mS} (h : Rel a m) : Meet0 (fX7_familyErrors a) (fX8_familyErrors m) := by
  obtain ⟨c, hc, f1, f2, f3⟩ := h.2.2.2.1
  obtain ⟨M, a1, q1, q2, q3, q4, q5, q6⟩ := p_primes hc h.1 f1
  have fe : ∀ j, j < c → cB a1 (8 + 8 * 0 + j) = cB a (8 + 8 * 0 + j) := fun j hj => q4 _ (by omega)
  obtain ⟨a2, g1, g2, g3, g4⟩ := p_err_L2 (s0 := a1) (M := M) hc ((sI_eq q3 0).trans f1) q1 (fun j => by
    rw [q6 j]
    by_cases e : j < c
    · rw [pri_cong fe e]
    · rw [decide_eq_false e, Bool.false_and, Bool.false_and]) c 1100 0 a1 (by omega) (by omega) rfl (fun _ _ => rfl) q5
  obtain ⟨m', k1, k2⟩ := m_err_L3 (m0 := vI m 0 0) hc f2 c 1100 0 (vI m 0 0) (by omega) (by omega) ⟨Vm_vI h.2.1 0 0, rfl, fun _ _ _ => rfl⟩
  have fm : ∀ j, j < c → cB a1 (8 + 8 * 0 + j) = mB (vI m 0 0) (9 + 7 * 0 + j) := fun j hj => (fe j hj).trans (fam_eq f3 j hj)
  refine ⟨nI (t1 (isU (fun j => cB a1 (8 + 8 * 0 + j)) c) (sameP (fun j => cB a1 (8 + 8 * 0 + j)) c) c c), a2, m', ?_, ?_, Rel_keep (Rel_v0 h 0) (aeq_trans (aeq_15 q4 q3) (aeq_15 g3 g2)) (mf2_meq k2) g4 k2.1⟩
  · unfold fX7_familyErrors fX0_errors
    rw [q2]
    simp only [Option.bind_some]
    rw [show fX0_errors_L9 0 (nI M) 1100 0 0 a1 = _ from g1]
    rfl
  · unfold fX8_familyErrors
    refine (show fX8_familyErrors_L9 1100 0 0 (vI m 0 0) = _ from k1).trans ?_
    rw [t1_cong (v := isU (fun j => mB (vI m 0 0) (9 + 7 * 0 + j)) c) (E := sameP (fun j => mB (vI m 0 0) (9 + 7 * 0 + j)) c) (fun i hi => isU_cong fm hi) (fun i j hi hj => sameP_cong fm hi hj) c (Nat.le_refl _), t1_t2 _ _ (fun i j => sameP_comm _ c i j)]
