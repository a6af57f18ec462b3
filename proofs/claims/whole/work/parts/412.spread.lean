/-! ===== spread, isClosed, isChain ===== -/
theorem p_fbecome {F G c : Nat} (hF : F < 2) (hG : G < 2) (hne : F ≠ G) (hc : c ≤ 7) {s : cS} (W : Wf s) (hI : sI s G = nI c) : ∃ s', fX0_become F G s = some s' ∧ Wf s' ∧ (∀ j, j < c → cB s' (8 + 8 * F + j) = cB s (8 + 8 * G + j)) ∧ (∀ n, n < 8 + 8 * F ∨ 15 + 8 * F ≤ n → cB s' n = cB s n) ∧ (∀ k, sI s' k = if k = F then nI c else sI s k) ∧ sT s' = sT s := by
  have key : ∀ (d fuel k : Nat) (t : cS), k + d = c → d < fuel → Wf t → sI t F = nI c → (∀ j, j < k → cB t (8 + 8 * F + j) = cB s (8 + 8 * G + j)) → (∀ n, n < 8 + 8 * F ∨ 15 + 8 * F ≤ n → cB t n = cB s n) → ∃ s', fX0_become_L10 F G fuel (nI k) t = some s' ∧ Wf s' ∧ (∀ j, j < c → cB s' (8 + 8 * F + j) = cB s (8 + 8 * G + j)) ∧ (∀ n, n < 8 + 8 * F ∨ 15 + 8 * F ≤ n → cB s' n = cB s n) ∧ s'.2.2 = t.2.2 := by
    intro d
    induction d with
    | zero =>
      intro fuel k t h hf W1 hI1 h1 h2
      obtain ⟨l, rfl⟩ : ∃ l, fuel = l + 1 := ⟨fuel - 1, by omega⟩
      rw [fX0_become_L10, hI1, if_pos (nI_le (by omega) (by omega))]
      exact ⟨t, rfl, W1, fun j hj => h1 j (by omega), h2, rfl⟩
    | succ d ih =>
      intro fuel k t h hf W1 hI1 h1 h2
      obtain ⟨l, rfl⟩ : ∃ l, fuel = l + 1 := ⟨fuel - 1, by omega⟩
      have k7 : k < 7 := by omega
      rw [fX0_become_L10, hI1, if_neg (nI_ge (by omega) (by omega)), if_pos (vin7 k7), if_pos (vin7 k7), cl7 k7, nI_1]
      obtain ⟨t1, e1, e2, e3⟩ := p_become (8 + 8 * F + k) (8 + 8 * G + k) t
      rw [e1]
      simp only [Option.bind_some]
      obtain ⟨s', r1, r2, r3, r4, r5⟩ := ih l (k + 1) t1 (by omega) (by omega) (Wf_up W1 (W1 _) e2) ((sI_eq e3 F).trans hI1) (fun j hj => by
        rw [e2]
        by_cases z : j = k
        · rw [z, zu_at]
          exact h2 _ (by omega)
        · rw [zu_ne _ (by omega)]
          exact h1 j (by omega)) (fun n hn => by
        rw [e2, zu_ne _ (by omega)]
        exact h2 n hn)
      exact ⟨s', r1, r2, r3, r4, r5.trans e3⟩
  obtain ⟨s', r1, r2, r3, r4, r5⟩ := key c 1100 0 (uI s F (sI s G)) (by omega) (by omega) W (by rw [sI_at, hI]) (fun j hj => by omega) (fun n _ => rfl)
  refine ⟨s', r1, r2, r3, r4, fun k => ?_, (sT_eq (s := uI s F (sI s G)) r5)⟩
  rw [sI_eq r5, sI_uI, hI]
theorem p_make {F i j : Nat} (how : Int32) (hi : i < 7) (hj : j < 7) (s : cS) : ∃ s', fX0_make F how (nI i) (nI j) s = some s' ∧ cB s' = va_up (cB s) (15 + 8 * F) (jn how (cB s (8 + 8 * F + i)) (cB s (8 + 8 * F + j))) ∧ s'.2.2 = s.2.2 := by
  unfold fX0_make
  obtain ⟨s1, e1, e2, e3⟩ := p_become (15 + 8 * F) (8 + 8 * F + i) s
  obtain ⟨s2, g1, g2, g3⟩ := p_combine (15 + 8 * F) how (8 + 8 * F + j) s1
  refine ⟨s2, ?_, ?_, g3.trans e3⟩
  · simp only [vin7 hi, vin7 hj, cl7 hi, cl7 hj, if_true, e1, g1, Option.bind_some]
  · rw [g2, e2, zu_twice, zu_at, zu_ne _ (by omega)]
/-- while the two spread -/
def RS (a0 : cS) (m0 : mS) (c n : Nat) (a : cS) (m : mS) : Prop := Wf a ∧ Vm m ∧ n ≤ 7 ∧ sI a 0 = nI c ∧ mI m 1 = nI c ∧ sI a 1 = nI n ∧ mI m 2 = nI n ∧ (∀ j, j < c → cB a (8 + 8 * 0 + j) = mB m (9 + 7 * 0 + j)) ∧ (∀ j, j < n → cB a (8 + 8 * 1 + j) = mB m (9 + 7 * 1 + j)) ∧ aeq a0 a ∧ meq m0 m ∧ mI m 0 = mI m0 0
theorem spread_L {a0 : cS} {m0 : mS} (how : Int32) {c i : Nat} (hc : c ≤ 7) (hi : i < c) (kc : cS → Option (Int32 × cS)) (km : mS → Option (Int32 × mS)) : ∀ (d fuel j n : Nat) (a : cS) (m : mS), j + d = c → d < fuel → RS a0 m0 c n a m → (∃ a' m' n', fX0_spreadInto_L13 0 1 how (nI i) kc fuel (nI j) a = some (0, a') ∧ fX8_spreads_L51 how (nI i) km fuel (nI j) m = some (0, m') ∧ RS a0 m0 c n' a' m') ∨ (∃ a' m' n', fX0_spreadInto_L13 0 1 how (nI i) kc fuel (nI j) a = kc a' ∧ fX8_spreads_L51 how (nI i) km fuel (nI j) m = km m' ∧ RS a0 m0 c n' a' m') := by
  intro d
  induction d with
  | zero =>
    intro fuel j n a m h hf hR
    obtain ⟨l, rfl⟩ : ∃ l, fuel = l + 1 := ⟨fuel - 1, by omega⟩
    right
    obtain ⟨_, _, _, r4, r5, _⟩ := id hR
    rw [fX0_spreadInto_L13, fX8_spreads_L51, r4, r5, if_pos (nI_le (by omega) (by omega)), if_pos (nI_le (by omega) (by omega))]
    exact ⟨a, m, n, rfl, rfl, hR⟩
  | succ d ih =>
    intro fuel j n a m h hf hR
    obtain ⟨l, rfl⟩ : ∃ l, fuel = l + 1 := ⟨fuel - 1, by omega⟩
    obtain ⟨W, V, n7, r4, r5, r6, r7, r8, r9, r10, r11, r12⟩ := id hR
    have i7 : i < 7 := by omega
    have j7 : j < 7 := by omega
    obtain ⟨m1, k1, k2, k3, k4⟩ := m_joins (9 + 7 * 0 + i) (9 + 7 * 0 + j) how 8 V
    have hm1 : meq m0 m1 := meq_trans r11 (meq_up (Or.inr rfl) k3 k4)
    have x8 : mB m1 8 = jn how (cB a (8 + 8 * 0 + i)) (cB a (8 + 8 * 0 + j)) := by rw [k3, zu_at, r8 i hi, r8 j (by omega)]
    rw [fX0_spreadInto_L13, fX8_spreads_L51, r4, r5, if_neg (nI_ge (by omega) (by omega)), if_neg (nI_ge (by omega) (by omega)), if_pos (vin7 i7), if_pos (vin7 j7), cl7 i7, cl7 j7, k1, nI_1]
    simp only [Option.bind_some]
    by_cases e : i = j
    · rw [if_pos (by rw [e]), if_pos (by rw [e])]
      exact ih l (j + 1) n a m1 (by omega) (by omega) ⟨W, k2, n7, r4, (mI_eq k4 1).trans r5, r6, (mI_eq k4 2).trans r7, fun q hq => by rw [k3, zu_ne _ (by omega)]; exact r8 q hq, fun q hq => by rw [k3, zu_ne _ (by omega)]; exact r9 q hq, r10, hm1, (mI_eq k4 0).trans r12⟩
    · have ne : ¬ nI i = nI j := fun z => e ((nI_eq (by omega) (by omega)).mp z)
      rw [if_neg ne, if_neg ne]
      obtain ⟨a1, p1, p2, p3⟩ := p_make (F := 0) how i7 j7 a
      have W1 : Wf a1 := Wf_up W (jn_wf (W _) (W _)) p2
      have y15 : cB a1 (15 + 8 * 0) = mB m1 8 := by rw [p2, zu_at, x8]
      have fe : fi (fun q => mB m1 (9 + 7 * 1 + q)) (mB m1 8) n 0 = fi (fun q => cB a1 (8 + 8 * 1 + q)) (cB a1 (15 + 8 * 0)) n 0 := by
        rw [y15]
        refine fi_cong n 0 (fun q _ hq => ?_)
        show mB m1 (9 + 7 * 1 + q) = cB a1 (8 + 8 * 1 + q)
        rw [k3, zu_ne _ (by omega), p2, zu_ne _ (by omega)]
        exact (r9 q (by omega)).symm
      have em : mI m1 2 = nI n := (mI_eq k4 2).trans r7
      rw [p1, em, m_find 1 8 k2 n7, fe]
      simp only [Option.bind_some, em]
      have hR1 : RS a0 m0 c n a1 m1 := ⟨W1, k2, n7, (sI_eq p3 0).trans r4, (mI_eq k4 1).trans r5, (sI_eq p3 1).trans r6, (mI_eq k4 2).trans r7, fun q hq => by rw [k3, zu_ne _ (by omega), p2, zu_ne _ (by omega)]; exact r8 q hq, fun q hq => by rw [k3, zu_ne _ (by omega), p2, zu_ne _ (by omega)]; exact r9 q hq, aeq_trans r10 (aeq_up (by omega) p2 p3), hm1, (mI_eq k4 0).trans r12⟩
      rcases p_enter (F := 1) (p := 15 + 8 * 0) (c := n) (Or.inl (by omega)) n7 W1 ((sI_eq p3 1).trans r6) with ⟨q1, q2⟩ | ⟨q1, q2, q3⟩ | ⟨q1, q2, a2, q3, q4, q5, q6, q7, q8⟩
      · rw [if_neg q1, q2]
        simp only [one_0, Option.bind_some]
        exact ih l (j + 1) n a1 m1 (by omega) (by omega) hR1
      · left
        subst q2
        rw [if_pos q1, q3, if_pos (show nI 7 = 7 from rfl)]
        exact ⟨a1, m1, 7, by simp only [if_true, Option.bind_some], rfl, hR1⟩
      · obtain ⟨m2, t1, t2, t3, t4, t5⟩ := m_inserts 1 (r := 8) (c := n) (Or.inl (by omega)) q2 k2
        rw [if_pos q1, q3, if_neg (fun z => by have := (nI_eq (a := n) (b := 7) (by omega) (by omega)).mp z; omega), t1]
        simp only [one_0, Option.bind_some]
        refine ih l (j + 1) (n + 1) a2 _ (by omega) (by omega) ⟨q4, t2, by omega, ?_, ?_, ?_, ?_, fun q hq => ?_, fun q hq => ?_, ?_, ?_, ?_⟩
        · rw [q7 0, if_neg (by decide)]
          exact (sI_eq p3 0).trans r4
        · rw [mI_vI, if_neg (by decide), mI_eq t5]
          exact (mI_eq k4 1).trans r5
        · rw [q7 1, if_pos rfl]
        · rw [mI_vI, if_pos rfl, mI_eq t5, show mI m1 2 = nI n from (mI_eq k4 2).trans r7, nI_1]
        · rw [mB_vI, t4 _ (Or.inl (by omega)), q6 _ (Or.inl (by omega)), k3, zu_ne _ (by omega), p2, zu_ne _ (by omega)]
          exact r8 q hq
        · rw [mB_vI, t3 q (by omega), q5 q (by omega), y15]
          refine ins_cong (fun w hw => ?_) (by omega)
          show cB a1 (8 + 8 * 1 + w) = mB m1 (9 + 7 * 1 + w)
          rw [k3, zu_ne _ (by omega), p2, zu_ne _ (by omega)]
          exact r9 w hw
        · refine aeq_trans r10 (aeq_trans (aeq_up (by omega) p2 p3) ⟨fun w hw => q6 w (Or.inl (by omega)), ?_, ?_, q8⟩)
          · rw [q7 0, if_neg (by decide)]
          · rw [q7 2, if_neg (by decide)]
        · refine meq_trans hm1 ⟨fun w hw _ => t4 w (Or.inl (by omega)), ?_, ?_, (mT_eq (m' := m2) t5)⟩
          · rw [mI_vI, if_neg (by decide), mI_eq t5]
          · rw [mI_vI, if_neg (by decide), mI_eq t5]
        · rw [mI_vI, if_neg (by decide), mI_eq t5]
          exact (mI_eq k4 0).trans r12
theorem spread_L2 {a0 : cS} {m0 : mS} (how : Int32) {c : Nat} (hc : c ≤ 7) : ∀ (d fuel i n : Nat) (a : cS) (m : mS), i + d = c → d < fuel → RS a0 m0 c n a m → ∃ r a' m' n', fX0_spreadInto_L2 0 1 how fuel (nI i) a = some (r, a') ∧ fX8_spreads_L41 how fuel (nI i) m = some (r, m') ∧ RS a0 m0 c n' a' m' := by
  intro d
  induction d with
  | zero =>
    intro fuel i n a m h hf hR
    obtain ⟨l, rfl⟩ : ∃ l, fuel = l + 1 := ⟨fuel - 1, by omega⟩
    obtain ⟨_, _, _, r4, r5, _⟩ := id hR
    rw [fX0_spreadInto_L2, fX8_spreads_L41, r4, r5, if_pos (nI_le (by omega) (by omega)), if_pos (nI_le (by omega) (by omega))]
    exact ⟨1, a, m, n, rfl, rfl, hR⟩
  | succ d ih =>
    intro fuel i n a m h hf hR
    obtain ⟨l, rfl⟩ : ∃ l, fuel = l + 1 := ⟨fuel - 1, by omega⟩
    obtain ⟨_, _, _, r4, r5, _⟩ := id hR
    rw [fX0_spreadInto_L2, fX8_spreads_L41, r4, r5, if_neg (nI_ge (by omega) (by omega)), if_neg (nI_ge (by omega) (by omega)), nI_1]
    rcases spread_L how hc (show i < c by omega) (fun s3 => fX0_spreadInto_L2 0 1 how l (nI (i + 1)) s3) (fun s10 => fX8_spreads_L41 how l (nI (i + 1)) s10) c 1100 0 n a m (by omega) (by omega) hR with ⟨a', m', n', h1, h2, h3⟩ | ⟨a', m', n', h1, h2, h3⟩
    · exact ⟨0, a', m', n', h1, h2, h3⟩
    · obtain ⟨r, a2, m2, n2, g1, g2, g3⟩ := ih l (i + 1) n' a' m' (by omega) (by omega) h3
      exact ⟨r, a2, m2, n2, h1.trans g1, h2.trans g2, g3⟩
theorem m_spreads_0 (how : Int32) (k0 : mS → Option (Int32 × mS)) {c : Nat} (hc : c ≤ 7) (m0 : mS) : ∀ (d fuel k : Nat) (m : mS), k + d = c → d < fuel → Vm m → mI m 1 = nI c → m.2 = m0.2 → (∀ j, j < k → mB m (9 + 7 * 1 + j) = mB m0 (9 + 7 * 0 + j)) → (∀ r, r < 16 → mB m r = mB m0 r) → ∃ m', fX8_spreads_L2 how k0 fuel (nI k) m = k0 m' ∧ Vm m' ∧ m'.2 = m0.2 ∧ (∀ j, j < c → mB m' (9 + 7 * 1 + j) = mB m0 (9 + 7 * 0 + j)) ∧ (∀ r, r < 16 → mB m' r = mB m0 r) := by
  intro d
  induction d with
  | zero =>
    intro fuel k m h hf V hI h2 h3 h4
    obtain ⟨l, rfl⟩ : ∃ l, fuel = l + 1 := ⟨fuel - 1, by omega⟩
    rw [fX8_spreads_L2, hI, if_pos (nI_le (by omega) (by omega))]
    exact ⟨m, rfl, V, h2, fun j hj => h3 j (by omega), h4⟩
  | succ d ih =>
    intro fuel k m h hf V hI h2 h3 h4
    obtain ⟨l, rfl⟩ : ∃ l, fuel = l + 1 := ⟨fuel - 1, by omega⟩
    have k7 : k < 7 := by omega
    obtain ⟨m1, k1, k2, k3, k4⟩ := m_copies (9 + 7 * 0 + k) (9 + 7 * 1 + k) V
    rw [fX8_spreads_L2, hI, if_neg (nI_ge (by omega) (by omega)), if_pos (vin7 k7), if_pos (vin7 k7), cl7 k7, k1, nI_1]
    simp only [Option.bind_some]
    refine ih l (k + 1) m1 (by omega) (by omega) k2 ((mI_eq k4 1).trans hI) (k4.trans h2) (fun j hj => ?_) (fun r hr => ?_)
    · rw [k3]
      by_cases z : j = k
      · rw [z, zu_at]
        exact h4 _ (by omega)
      · rw [zu_ne _ (by omega)]
        exact h3 j (by omega)
    · rw [k3, zu_ne _ (by omega)]
      exact h4 r hr
theorem m_spread_L38 (x : Int32) {n : Nat} (hn : n ≤ 7) (m0 : mS) : ∀ (d fuel k : Nat) (m : mS), k + d = n → d < fuel → Vm m → mI m 2 = nI n → m.2 = m0.2 → (∀ j, j < k → mB m (9 + 7 * 0 + j) = mB m0 (9 + 7 * 1 + j)) → (∀ r, r < 9 ∨ 16 ≤ r → mB m r = mB m0 r) → ∃ m', fX8_spread_L38 x fuel (nI k) m = some (x, vI m' 1 (nI n)) ∧ Vm m' ∧ m'.2 = m0.2 ∧ (∀ j, j < n → mB m' (9 + 7 * 0 + j) = mB m0 (9 + 7 * 1 + j)) ∧ (∀ r, r < 9 ∨ 16 ≤ r → mB m' r = mB m0 r) := by
  intro d
  induction d with
  | zero =>
    intro fuel k m h hf V hI h2 h3 h4
    obtain ⟨l, rfl⟩ : ∃ l, fuel = l + 1 := ⟨fuel - 1, by omega⟩
    rw [fX8_spread_L38, hI, if_pos (nI_le (by omega) (by omega))]
    exact ⟨m, rfl, V, h2, fun j hj => h3 j (by omega), h4⟩
  | succ d ih =>
    intro fuel k m h hf V hI h2 h3 h4
    obtain ⟨l, rfl⟩ : ∃ l, fuel = l + 1 := ⟨fuel - 1, by omega⟩
    have k7 : k < 7 := by omega
    obtain ⟨m1, k1, k2, k3, k4⟩ := m_copies (9 + 7 * 1 + k) (9 + 7 * 0 + k) V
    rw [fX8_spread_L38, hI, if_neg (nI_ge (by omega) (by omega)), if_pos (vin7 k7), if_pos (vin7 k7), cl7 k7, k1, nI_1]
    simp only [Option.bind_some]
    refine ih l (k + 1) m1 (by omega) (by omega) k2 ((mI_eq k4 2).trans hI) (k4.trans h2) (fun j hj => ?_) (fun r hr => ?_)
    · rw [k3]
      by_cases z : j = k
      · rw [z, zu_at]
        exact h4 _ (Or.inr (by omega))
      · rw [zu_ne _ (by omega)]
        exact h3 j (by omega)
    · rw [k3, zu_ne _ (by omega)]
      exact h4 r hr
/-- the reference begins to spread -/
theorem m_spreads_begin (how : Int32) {c : Nat} (hc : c ≤ 7) {m : mS} (V : Vm m) (f2 : mI m 1 = nI c) : ∃ m', fX8_spreads how m = fX8_spreads_L41 how 1100 0 m' ∧ Vm m' ∧ mI m' 1 = nI c ∧ mI m' 2 = nI c ∧ mI m' 0 = mI m 0 ∧ (∀ j, j < c → mB m' (9 + 7 * 1 + j) = mB m (9 + 7 * 0 + j)) ∧ (∀ r, r < 16 → mB m' r = mB m r) ∧ meq m m' := by
  unfold fX8_spreads
  obtain ⟨m1, k1, k2, k3, k4, k5⟩ := m_spreads_0 how (fun s4 => fX8_spreads_L41 how 1100 (0 : Int32) (vI s4 2 (mI s4 1))) hc m c 1100 0 m (by omega) (by omega) V f2 rfl (fun j hj => by omega) (fun r _ => rfl)
  refine ⟨vI m1 2 (mI m1 1), k1, k2, ?_, ?_, ?_, k4, k5, fun r hr _ => k5 r hr, ?_, ?_, (mT_eq (m' := m1) k3)⟩
  · rw [mI_vI, if_neg (by decide), mI_eq k3]
    exact f2
  · rw [mI_vI, if_pos rfl, mI_eq k3]
    exact f2
  · rw [mI_vI, if_neg (by decide), mI_eq k3]
  · rw [mI_vI, if_neg (by decide), mI_eq k3]
  · rw [mI_vI, if_neg (by decide), mI_eq k3]
theorem g_spread {a : cS} {m : mS} (h : Rel a m) (p : Int32) : Meets 2 2 (fX7_spread p a) (fX8_spread p m) := by
  rcases rng p 0 2 with ⟨s1, s2, _, _⟩ | ⟨s1, s2⟩
  · obtain ⟨W, V, hs, ⟨c, hc, f1, f2, f3⟩, ht⟩ := id h
    obtain ⟨b, b1, b2, b3, b4, b5, b6⟩ := p_fbecome (F := 1) (G := 0) (by decide) (by decide) (by decide) hc W f1
    obtain ⟨m1, k1, k2, k3, k4, k5, k6, k7, k8⟩ := m_spreads_begin p hc (Vm_vI V 0 0) f2
    have ab : aeq a b := ⟨fun n hn => b4 n (Or.inl (by omega)), by rw [b5 0, if_neg (by decide)], by rw [b5 2, if_neg (by decide)], b6⟩
    have hRS : RS a (vI m 0 0) c c b m1 := ⟨b2, k2, hc, by rw [b5 0, if_neg (by decide)]; exact f1, k3, by rw [b5 1, if_pos rfl], k4, fun j hj => by rw [b4 _ (Or.inl (by omega)), k7 _ (by omega), mB_vI]; exact fam_eq f3 j hj, fun j hj => by rw [b3 j hj, k6 j hj, mB_vI]; exact fam_eq f3 j hj, ab, k8, k5⟩
    obtain ⟨r, a2, m2, n, g1, g2, W2, V2, n7, r4, r5, r6, r7, r8, r9, r10, r11, r12⟩ := spread_L2 p hc c 1100 0 c b m1 (by omega) (by omega) hRS
    have hR2 : Rel a2 m2 := Rel_keep (Rel_v0 h 0) r10 r11 W2 V2
    by_cases e : r = 0
    · refine Meets.ok (r := -1) (a' := a2) (m' := m2) ?_ ?_ (r12.trans rfl) hR2
      · unfold fX7_spread
        simp only [s1, Option.bind_some, Sum.elim_inr, b1]
        rw [show fX0_spreadInto 0 1 p b = some (r, a2) from g1]
        simp only [Option.bind_some, if_pos e]
      · unfold fX8_spread
        simp only [s2, pass_0, Option.bind_some, one_0]
        rw [k1, show fX8_spreads_L41 p 1100 0 m1 = some (r, m2) from g2]
        simp only [Option.bind_some, if_pos e]
    · obtain ⟨a3, t1, t2, t3, t4, t5, t6⟩ := p_fbecome (F := 0) (G := 1) (by decide) (by decide) (by decide) n7 W2 r6
      obtain ⟨m3, q1, q2, q3, q4, q5⟩ := m_spread_L38 (nI n - nI c) n7 m2 n 1100 0 m2 (by omega) (by omega) V2 r7 rfl (fun j hj => by omega) (fun r _ => rfl)
      obtain ⟨_, _, hs2, _, ⟨L, hL, t21, t22, t23⟩⟩ := hR2
      refine Meets.ok (r := nI n - nI c) (a' := a3) (m' := vI m3 1 (nI n)) ?_ ?_ ?_ ⟨t2, q2, fun i hi => ?_, ⟨n, n7, ?_, ?_, fun j hj => ?_⟩, ⟨L, hL, ?_, ?_, fun k hk => ?_⟩⟩
      · unfold fX7_spread
        simp only [s1, Option.bind_some, Sum.elim_inr, b1]
        rw [show fX0_spreadInto 0 1 p b = some (r, a2) from g1]
        simp only [Option.bind_some, if_neg e, t1]
        unfold fX0_count
        rw [r4, r6]
      · unfold fX8_spread
        simp only [s2, pass_0, Option.bind_some, one_0]
        rw [k1, show fX8_spreads_L41 p 1100 0 m1 = some (r, m2) from g2]
        simp only [Option.bind_some, if_neg e]
        rw [r5, r7]
        exact q1
      · rw [mI_vI, if_neg (by decide), mI_eq q3]
        exact r12.trans rfl
      · rw [mB_vI, t4 i (Or.inl (by omega)), q5 i (Or.inl (by omega))]
        exact hs2 i hi
      · rw [t5 0, if_pos rfl]
      · rw [mI_vI, if_pos rfl]
      · have x1 := t3 j hj
        have x2 := q4 j hj
        rw [show 8 + 8 * 0 + j = 8 + j from by omega] at x1
        rw [show 9 + 7 * 0 + j = 9 + j from by omega] at x2
        rw [mB_vI, x1, x2]
        exact r9 j hj
      · rw [t5 2, if_neg (by decide)]
        exact t21
      · rw [mI_vI, if_neg (by decide), mI_eq q3]
        exact t22
      · rw [t6, mT_vI, mT_eq q3]
        exact t23 k hk
  · refine Meets.e1 (r := 0) h ?_ ?_
    · unfold fX7_spread
      simp only [s1, Option.bind_some, Sum.elim_inl]
    · unfold fX8_spread
      simp only [s2, pass_1, Option.bind_some, if_true]
/-! isClosed -/
def MS (m0 : mS) (c n : Nat) (m : mS) : Prop := Vm m ∧ n ≤ 7 ∧ mI m 1 = nI c ∧ mI m 2 = nI n ∧ meq m0 m ∧ mI m 0 = mI m0 0
theorem ms_L {m0 : mS} (how : Int32) {c i : Nat} (hc : c ≤ 7) (hi : i < c) (km : mS → Option (Int32 × mS)) : ∀ (d fuel j n : Nat) (m : mS), j + d = c → d < fuel → MS m0 c n m → (∃ m' n', fX8_spreads_L51 how (nI i) km fuel (nI j) m = some (0, m') ∧ n ≤ n' ∧ MS m0 c n' m') ∨ (∃ m' n', fX8_spreads_L51 how (nI i) km fuel (nI j) m = km m' ∧ n ≤ n' ∧ MS m0 c n' m') := by
  intro d
  induction d with
  | zero =>
    intro fuel j n m h hf hR
    obtain ⟨l, rfl⟩ : ∃ l, fuel = l + 1 := ⟨fuel - 1, by omega⟩
    right
    obtain ⟨_, _, r5, _⟩ := id hR
    rw [fX8_spreads_L51, r5, if_pos (nI_le (by omega) (by omega))]
    exact ⟨m, n, rfl, Nat.le_refl _, hR⟩
  | succ d ih =>
    intro fuel j n m h hf hR
    obtain ⟨l, rfl⟩ : ∃ l, fuel = l + 1 := ⟨fuel - 1, by omega⟩
    obtain ⟨V, n7, r5, r7, r11, r12⟩ := id hR
    have i7 : i < 7 := by omega
    have j7 : j < 7 := by omega
    obtain ⟨m1, k1, k2, k3, k4⟩ := m_joins (9 + 7 * 0 + i) (9 + 7 * 0 + j) how 8 V
    have hm1 : meq m0 m1 := meq_trans r11 (meq_up (Or.inr rfl) k3 k4)
    have hR1 : MS m0 c n m1 := ⟨k2, n7, (mI_eq k4 1).trans r5, (mI_eq k4 2).trans r7, hm1, (mI_eq k4 0).trans r12⟩
    rw [fX8_spreads_L51, r5, if_neg (nI_ge (by omega) (by omega)), if_pos (vin7 i7), if_pos (vin7 j7), cl7 i7, cl7 j7, k1, nI_1]
    simp only [Option.bind_some]
    by_cases e : nI i = nI j
    · rw [if_pos e]
      exact ih l (j + 1) n m1 (by omega) (by omega) hR1
    · have em : mI m1 2 = nI n := (mI_eq k4 2).trans r7
      rw [if_neg e, em, m_find 1 8 k2 n7]
      simp only [Option.bind_some, em]
      by_cases q1 : fi (fun q => mB m1 (9 + 7 * 1 + q)) (mB m1 8) n 0 = -1
      · rw [if_pos q1]
        by_cases q2 : n = 7
        · left
          subst q2
          rw [if_pos (show nI 7 = 7 from rfl)]
          exact ⟨m1, 7, rfl, Nat.le_refl _, hR1⟩
        · obtain ⟨m2, t1, t2, t3, t4, t5⟩ := m_inserts 1 (r := 8) (c := n) (Or.inl (by omega)) (by omega) k2
          rw [if_neg (fun z => by have := (nI_eq (a := n) (b := 7) (by omega) (by omega)).mp z; omega)]
          simp only [t1, Option.bind_some]
          have hR2 : MS m0 c (n + 1) (vI m2 2 (mI m2 2 + 1)) := by
            refine ⟨t2, by omega, ?_, ?_, ?_, ?_⟩
            · rw [mI_vI, if_neg (by decide), mI_eq t5]
              exact (mI_eq k4 1).trans r5
            · rw [mI_vI, if_pos rfl, mI_eq t5, show mI m1 2 = nI n from (mI_eq k4 2).trans r7, nI_1]
            · refine meq_trans hm1 ⟨fun w hw _ => t4 w (Or.inl (by omega)), ?_, ?_, (mT_eq (m' := m2) t5)⟩
              · rw [mI_vI, if_neg (by decide), mI_eq t5]
              · rw [mI_vI, if_neg (by decide), mI_eq t5]
            · rw [mI_vI, if_neg (by decide), mI_eq t5]
              exact (mI_eq k4 0).trans r12
          rcases ih l (j + 1) (n + 1) _ (by omega) (by omega) hR2 with ⟨m', n', z1, z2, z3⟩ | ⟨m', n', z1, z2, z3⟩
          · exact Or.inl ⟨m', n', z1, by omega, z3⟩
          · exact Or.inr ⟨m', n', z1, by omega, z3⟩
      · rw [if_neg q1]
        exact ih l (j + 1) n m1 (by omega) (by omega) hR1
theorem ms_L2 {m0 : mS} (how : Int32) {c : Nat} (hc : c ≤ 7) : ∀ (d fuel i n : Nat) (m : mS), i + d = c → d < fuel → MS m0 c n m → ∃ r m' n', fX8_spreads_L41 how fuel (nI i) m = some (r, m') ∧ n ≤ n' ∧ MS m0 c n' m' := by
  intro d
  induction d with
  | zero =>
    intro fuel i n m h hf hR
    obtain ⟨l, rfl⟩ : ∃ l, fuel = l + 1 := ⟨fuel - 1, by omega⟩
    obtain ⟨_, _, r5, _⟩ := id hR
    rw [fX8_spreads_L41, r5, if_pos (nI_le (by omega) (by omega))]
    exact ⟨1, m, n, rfl, Nat.le_refl _, hR⟩
  | succ d ih =>
    intro fuel i n m h hf hR
    obtain ⟨l, rfl⟩ : ∃ l, fuel = l + 1 := ⟨fuel - 1, by omega⟩
    obtain ⟨_, _, r5, _⟩ := id hR
    rw [fX8_spreads_L41, r5, if_neg (nI_ge (by omega) (by omega)), nI_1]
    rcases ms_L how hc (show i < c by omega) (fun s10 => fX8_spreads_L41 how l (nI (i + 1)) s10) c 1100 0 n m (by omega) (by omega) hR with ⟨m', n', h1, h2, h3⟩ | ⟨m', n', h1, h2, h3⟩
    · exact ⟨0, m', n', h1, h2, h3⟩
    · obtain ⟨r, m2, n2, g1, g2, g3⟩ := ih l (i + 1) n' m' (by omega) (by omega) h3
      exact ⟨r, m2, n2, h1.trans g1, by omega, g3⟩
def RC (a0 : cS) (m0 : mS) (c : Nat) (a : cS) (m : mS) : Prop := Wf a ∧ sI a 0 = nI c ∧ aeq a0 a ∧ MS m0 c c m ∧ (∀ j, j < c → cB a (8 + 8 * 0 + j) = mB m (9 + 7 * 0 + j)) ∧ (∀ j, j < c → mB m (9 + 7 * 1 + j) = mB m (9 + 7 * 0 + j))
theorem closed_L {a0 : cS} {m0 : mS} (how : Int32) {c i : Nat} (hc : c ≤ 7) (hi : i < c) (kc : cS → Option (Int32 × cS)) (km : mS → Option (Int32 × mS)) : ∀ (d fuel j : Nat) (a : cS) (m : mS), j + d = c → d < fuel → RC a0 m0 c a m → (∃ a', fX0_closedUnder_L12 0 how (nI i) kc fuel (nI j) a = some (0, a') ∧ Wf a' ∧ aeq a0 a' ∧ ((∃ m' n', fX8_spreads_L51 how (nI i) km fuel (nI j) m = some (0, m') ∧ MS m0 c n' m') ∨ (∃ m' n', fX8_spreads_L51 how (nI i) km fuel (nI j) m = km m' ∧ c < n' ∧ MS m0 c n' m'))) ∨ (∃ a' m', fX0_closedUnder_L12 0 how (nI i) kc fuel (nI j) a = kc a' ∧ fX8_spreads_L51 how (nI i) km fuel (nI j) m = km m' ∧ RC a0 m0 c a' m') := by
  intro d
  induction d with
  | zero =>
    intro fuel j a m h hf hR
    obtain ⟨l, rfl⟩ : ∃ l, fuel = l + 1 := ⟨fuel - 1, by omega⟩
    right
    obtain ⟨_, r4, _, ⟨_, _, r5, _⟩, _⟩ := id hR
    rw [fX0_closedUnder_L12, fX8_spreads_L51, r4, r5, if_pos (nI_le (by omega) (by omega)), if_pos (nI_le (by omega) (by omega))]
    exact ⟨a, m, rfl, rfl, hR⟩
  | succ d ih =>
    intro fuel j a m h hf hR
    obtain ⟨l, rfl⟩ : ∃ l, fuel = l + 1 := ⟨fuel - 1, by omega⟩
    obtain ⟨W, r4, r10, ⟨V, _, r5, r7, r11, r12⟩, r8, r9⟩ := id hR
    have i7 : i < 7 := by omega
    have j7 : j < 7 := by omega
    obtain ⟨m1, k1, k2, k3, k4⟩ := m_joins (9 + 7 * 0 + i) (9 + 7 * 0 + j) how 8 V
    have hm1 : meq m0 m1 := meq_trans r11 (meq_up (Or.inr rfl) k3 k4)
    have x8 : mB m1 8 = jn how (cB a (8 + 8 * 0 + i)) (cB a (8 + 8 * 0 + j)) := by rw [k3, zu_at, r8 i hi, r8 j (by omega)]
    have hM1 : MS m0 c c m1 := ⟨k2, hc, (mI_eq k4 1).trans r5, (mI_eq k4 2).trans r7, hm1, (mI_eq k4 0).trans r12⟩
    have rows1 : ∀ q, q < c → mB m1 (9 + 7 * 1 + q) = mB m1 (9 + 7 * 0 + q) := fun q hq => by rw [k3, zu_ne _ (by omega), zu_ne _ (by omega)]; exact r9 q hq
    rw [fX0_closedUnder_L12, fX8_spreads_L51, r4, r5, if_neg (nI_ge (by omega) (by omega)), if_neg (nI_ge (by omega) (by omega)), if_pos (vin7 i7), if_pos (vin7 j7), cl7 i7, cl7 j7, k1, nI_1]
    simp only [Option.bind_some]
    by_cases e : i = j
    · rw [if_pos (by rw [e]), if_pos (by rw [e])]
      exact ih l (j + 1) a m1 (by omega) (by omega) ⟨W, r4, r10, hM1, fun q hq => by rw [k3, zu_ne _ (by omega)]; exact r8 q hq, rows1⟩
    · have ne : ¬ nI i = nI j := fun z => e ((nI_eq (by omega) (by omega)).mp z)
      rw [if_neg ne, if_neg ne]
      obtain ⟨a1, p1, p2, p3⟩ := p_make (F := 0) how i7 j7 a
      have W1 : Wf a1 := Wf_up W (jn_wf (W _) (W _)) p2
      have y15 : cB a1 (15 + 8 * 0) = mB m1 8 := by rw [p2, zu_at, x8]
      have fe : fi (fun q => mB m1 (9 + 7 * 1 + q)) (mB m1 8) c 0 = fi (fun q => cB a1 (8 + 8 * 0 + q)) (cB a1 (15 + 8 * 0)) c 0 := by
        rw [y15]
        refine fi_cong c 0 (fun q _ hq => ?_)
        show mB m1 (9 + 7 * 1 + q) = cB a1 (8 + 8 * 0 + q)
        rw [rows1 q (by omega), k3, zu_ne _ (by omega), p2, zu_ne _ (by omega)]
        exact (r8 q (by omega)).symm
      have aeq1 : aeq a0 a1 := aeq_trans r10 (aeq_up (by omega) p2 p3)
      have em : mI m1 2 = nI c := (mI_eq k4 2).trans r7
      rw [p1, em, m_find 1 8 k2 hc, fe]
      simp only [Option.bind_some, em]
      rw [p_find (F := 0) (15 + 8 * 0) hc ((sI_eq p3 0).trans r4)]
      simp only [Option.bind_some]
      by_cases q1 : fi (fun q => cB a1 (8 + 8 * 0 + q)) (cB a1 (15 + 8 * 0)) c 0 = -1
      · rw [if_pos q1, if_pos q1]
        left
        refine ⟨a1, rfl, W1, aeq1, ?_⟩
        by_cases q2 : c = 7
        · left
          rw [if_pos (show nI c = 7 from by rw [q2]; rfl)]
          exact ⟨m1, c, rfl, hM1⟩
        · obtain ⟨m2, t1, t2, t3, t4, t5⟩ := m_inserts 1 (r := 8) (c := c) (Or.inl (by omega)) (by omega) k2
          rw [if_neg (fun z => by have := (nI_eq (a := c) (b := 7) (by omega) (by omega)).mp z; omega), t1]
          simp only [Option.bind_some]
          have hR2 : MS m0 c (c + 1) (vI m2 2 (mI m2 2 + 1)) := by
            refine ⟨t2, by omega, ?_, ?_, ?_, ?_⟩
            · rw [mI_vI, if_neg (by decide), mI_eq t5]
              exact (mI_eq k4 1).trans r5
            · rw [mI_vI, if_pos rfl, mI_eq t5, show mI m1 2 = nI c from (mI_eq k4 2).trans r7, nI_1]
            · refine meq_trans hm1 ⟨fun w hw _ => t4 w (Or.inl (by omega)), ?_, ?_, (mT_eq (m' := m2) t5)⟩
              · rw [mI_vI, if_neg (by decide), mI_eq t5]
              · rw [mI_vI, if_neg (by decide), mI_eq t5]
            · rw [mI_vI, if_neg (by decide), mI_eq t5]
              exact (mI_eq k4 0).trans r12
          rcases ms_L how hc hi km d l (j + 1) (c + 1) _ (by omega) (by omega) hR2 with ⟨m', n', z1, z2, z3⟩ | ⟨m', n', z1, z2, z3⟩
          · exact Or.inl ⟨m', n', z1, z3⟩
          · exact Or.inr ⟨m', n', z1, by omega, z3⟩
      · rw [if_neg q1, if_neg q1]
        exact ih l (j + 1) a1 m1 (by omega) (by omega) ⟨W1, (sI_eq p3 0).trans r4, aeq1, hM1, fun q hq => by rw [k3, zu_ne _ (by omega), p2, zu_ne _ (by omega)]; exact r8 q hq, rows1⟩
theorem closed_L2 {a0 : cS} {m0 : mS} (how : Int32) {c : Nat} (hc : c ≤ 7) : ∀ (d fuel i : Nat) (a : cS) (m : mS), i + d = c → d < fuel → RC a0 m0 c a m → ∃ r a' r' m' n', fX0_closedUnder_L2 0 how fuel (nI i) a = some (r, a') ∧ fX8_spreads_L41 how fuel (nI i) m = some (r', m') ∧ Wf a' ∧ aeq a0 a' ∧ MS m0 c n' m' ∧ ((r = 1 ∧ r' = 1 ∧ n' = c) ∨ (r = 0 ∧ (r' = 0 ∨ c < n'))) := by
  intro d
  induction d with
  | zero =>
    intro fuel i a m h hf hR
    obtain ⟨l, rfl⟩ : ∃ l, fuel = l + 1 := ⟨fuel - 1, by omega⟩
    obtain ⟨W, r4, r10, hM, _⟩ := id hR
    obtain ⟨_, _, r5, _⟩ := id hM
    rw [fX0_closedUnder_L2, fX8_spreads_L41, r4, r5, if_pos (nI_le (by omega) (by omega)), if_pos (nI_le (by omega) (by omega))]
    exact ⟨1, a, 1, m, c, rfl, rfl, W, r10, hM, Or.inl ⟨rfl, rfl, rfl⟩⟩
  | succ d ih =>
    intro fuel i a m h hf hR
    obtain ⟨l, rfl⟩ : ∃ l, fuel = l + 1 := ⟨fuel - 1, by omega⟩
    obtain ⟨W, r4, r10, hM, _⟩ := id hR
    obtain ⟨_, _, r5, _⟩ := id hM
    rw [fX0_closedUnder_L2, fX8_spreads_L41, r4, r5, if_neg (nI_ge (by omega) (by omega)), if_neg (nI_ge (by omega) (by omega)), nI_1]
    rcases closed_L how hc (show i < c by omega) (fun s3 => fX0_closedUnder_L2 0 how l (nI (i + 1)) s3) (fun s10 => fX8_spreads_L41 how l (nI (i + 1)) s10) c 1100 0 a m (by omega) (by omega) hR with ⟨a', h1, h2, h3, ⟨m', n', h4, h5⟩ | ⟨m', n', h4, h5, h6⟩⟩ | ⟨a', m', h1, h2, h3⟩
    · exact ⟨0, a', 0, m', n', h1, h4, h2, h3, h5, Or.inr ⟨rfl, Or.inl rfl⟩⟩
    · obtain ⟨r', m2, n2, g1, g2, g3⟩ := ms_L2 how hc d l (i + 1) n' m' (by omega) (by omega) h6
      exact ⟨0, a', r', m2, n2, h1, h4.trans g1, h2, h3, g3, Or.inr ⟨rfl, Or.inr (by omega)⟩⟩
    · obtain ⟨r, a2, r', m2, n2, g1, g2, g3⟩ := ih l (i + 1) a' m' (by omega) (by omega) h3
      exact ⟨r, a2, r', m2, n2, h1.trans g1, h2.trans g2, g3⟩
theorem g_isClosed {a : cS} {m : mS} (h : Rel a m) (p : Int32) : Meets 2 2 (fX7_isClosed p a) (fX8_isClosed p m) := by
  rcases rng p 0 2 with ⟨s1, s2, _, _⟩ | ⟨s1, s2⟩
  · obtain ⟨W, V, hs, ⟨c, hc, f1, f2, f3⟩, ht⟩ := id h
    obtain ⟨m1, k1, k2, k3, k4, k5, k6, k7, k8⟩ := m_spreads_begin p hc (Vm_vI V 0 0) f2
    have hRC : RC a (vI m 0 0) c a m1 := ⟨W, f1, aeq_refl a, ⟨k2, hc, k3, k4, k8, k5⟩, fun j hj => by rw [k7 _ (by omega), mB_vI]; exact fam_eq f3 j hj, fun j hj => by rw [k6 j hj, k7 _ (by omega)]⟩
    obtain ⟨r, a2, r', m2, n, g1, g2, W2, g3, ⟨V2, n7, r5, r7, r11, r12⟩, g5⟩ := closed_L2 p hc c 1100 0 a m1 (by omega) (by omega) hRC
    refine Meets.ok (r := r) (a' := a2) (m' := m2) ?_ ?_ (r12.trans rfl) (Rel_keep (Rel_v0 h 0) g3 r11 W2 V2)
    · unfold fX7_isClosed
      simp only [s1, Option.bind_some, Sum.elim_inr]
      rw [show fX0_closedUnder 0 p a = some (r, a2) from g1]
      rfl
    · unfold fX8_isClosed
      simp only [s2, pass_0, Option.bind_some, one_0]
      rw [k1, show fX8_spreads_L41 p 1100 0 m1 = some (r', m2) from g2]
      simp only [Option.bind_some]
      rcases g5 with ⟨rfl, rfl, rfl⟩ | ⟨rfl, rfl | z⟩
      · rw [if_neg (by decide), r5, r7, if_pos rfl]
      · rw [if_pos rfl]
      · by_cases e : r' = 0
        · rw [if_pos e]
        · rw [if_neg e, r5, r7, if_neg (fun z2 => by have := (nI_eq (a := n) (b := c) (by omega) (by omega)).mp z2; omega)]
  · refine Meets.e1 (r := 0) h ?_ ?_
    · unfold fX7_isClosed
      simp only [s1, Option.bind_some, Sum.elim_inl]
    · unfold fX8_isClosed
      simp only [s2, pass_1, Option.bind_some, if_true]
