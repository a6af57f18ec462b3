/-! ===== the reference's primes; primes, primesWithin, familyErrors ===== -/
/-- rows below 23, and above it up to 64, are as before, and so are the ints -/
def mfr (m m' : mS) : Prop := Vm m' ∧ m'.2 = m.2 ∧ ∀ r, r ≠ 23 → mB m' r = mB m r
theorem m_unc_L {c i : Nat} {m0 : mS} (hc : c ≤ 7) (hI : mI m0 1 = nI c) (hi : i < c) : ∀ (d fuel k : Nat) (m : mS), k + d = c → d < fuel → Vm m → m.2 = m0.2 → mB m = va_up (mB m0) 23 (un (fun j => mB m0 (9 + 7 * 0 + j)) (fun j => decide (j ≠ i) && inn (mB m0 (9 + 7 * 0 + j)) (mB m0 (9 + 7 * 0 + i))) k) → ∃ m', fX8_unites_c_L11 (9 + 7 * 0 + i) (nI i) 23 fuel (nI k) m = some m' ∧ Vm m' ∧ m'.2 = m0.2 ∧ mB m' = va_up (mB m0) 23 (un (fun j => mB m0 (9 + 7 * 0 + j)) (fun j => decide (j ≠ i) && inn (mB m0 (9 + 7 * 0 + j)) (mB m0 (9 + 7 * 0 + i))) c) := by
  intro d
  induction d with
  | zero =>
    intro fuel k m h hf V h2 hB
    obtain ⟨l, rfl⟩ : ∃ l, fuel = l + 1 := ⟨fuel - 1, by omega⟩
    have : k = c := by omega
    subst this
    rw [fX8_unites_c_L11, mI_eq h2, hI, if_pos (nI_le (by omega) (by omega))]
    exact ⟨m, rfl, V, h2, hB⟩
  | succ d ih =>
    intro fuel k m h hf V h2 hB
    obtain ⟨l, rfl⟩ : ∃ l, fuel = l + 1 := ⟨fuel - 1, by omega⟩
    have k7 : k < 7 := by omega
    rw [fX8_unites_c_L11, mI_eq h2, hI, if_neg (nI_ge (by omega) (by omega)), nI_1]
    have hk := ih l (k + 1)
    rw [un] at hk
    by_cases e : k = i
    · rw [if_pos (by rw [e])]
      refine hk m (by omega) (by omega) V h2 ?_
      rw [hB, decide_eq_false (fun z => z e), Bool.false_and]
      rfl
    · rw [if_neg (fun z => e ((nI_eq (by omega) (by omega)).mp z)), if_pos (vin7 k7), cl7 k7, m_lies]
      simp only [Option.bind_some, if_bi]
      rw [hB, zu_ne _ (by omega), zu_ne _ (by omega)]
      rw [decide_eq_true e, Bool.true_and] at hk
      cases a : inn (mB m0 (9 + 7 * 0 + k)) (mB m0 (9 + 7 * 0 + i))
      · rw [a] at hk
        exact hk m (by omega) (by omega) V h2 hB
      · rw [a] at hk
        simp only [if_true] at hk ⊢
        obtain ⟨m1, k1, k2, k3, k4⟩ := m_joins 23 (9 + 7 * 0 + k) 0 23 V
        rw [if_pos (vin7 k7), k1]
        simp only [Option.bind_some]
        refine hk m1 (by omega) (by omega) k2 (k4.trans h2) ?_
        rw [k3, hB, zu_twice, zu_at, zu_ne _ (by omega)]
theorem m_isPrime {c i : Nat} {m : mS} (V : Vm m) (hc : c ≤ 7) (hI : mI m 1 = nI c) (hi : i < c) : ∃ m', fX8_isPrime (nI i) m = some (bi (pri (fun j => mB m (9 + 7 * 0 + j)) c i), m') ∧ mfr m m' := by
  unfold fX8_isPrime fX8_unites_c
  have i7 : i < 7 := by omega
  obtain ⟨m1, k1, k2, k3, k4⟩ := m_joins (9 + 7 * 0 + i) (9 + 7 * 0 + i) 2 23 V
  rw [jn2_self] at k3
  obtain ⟨m2, g1, g2, g3, g4⟩ := m_unc_L (m0 := m) hc hI hi c 1100 0 m1 (by omega) (by omega) k2 k4 k3
  refine ⟨m2, ?_, g2, g3, fun r hr => by rw [g4, zu_ne _ hr]⟩
  rw [if_pos (vin7 i7), cl7 i7, k1]
  simp only [Option.bind_some]
  rw [show fX8_unites_c_L11 (9 + 7 * 0 + i) (nI i) 23 1100 0 m1 = some m2 from g1]
  simp only [Option.bind_some, vin7 i7, if_true, m_areSame _ _ g2, bi_casen]
  rw [g4, zu_at, zu_ne _ (by omega)]
  rfl
theorem mfr_refl {m : mS} (V : Vm m) : mfr m m := ⟨V, rfl, fun _ _ => rfl⟩
theorem mfr_trans {a b c : mS} (h : mfr a b) (g : mfr b c) : mfr a c := ⟨g.1, g.2.1.trans h.2.1, fun r hr => (g.2.2 r hr).trans (h.2.2 r hr)⟩
theorem mfr_meq {m m' : mS} (h : mfr m m') : meq m m' := ⟨fun r hr _ => h.2.2 r (by omega), mI_eq h.2.1 1, mI_eq h.2.1 3, mT_eq h.2.1⟩
theorem mfr_pri {m m' : mS} (h : mfr m m') {c i : Nat} (hc : c ≤ 7) (hi : i < c) : pri (fun j => mB m' (9 + 7 * 0 + j)) c i = pri (fun j => mB m (9 + 7 * 0 + j)) c i := pri_cong (fun j hj => h.2.2 _ (by omega)) hi
theorem m_primes_L {c : Nat} {m0 : mS} (hc : c ≤ 7) (hI : mI m0 1 = nI c) : ∀ (d fuel k : Nat) (m : mS), k + d = c → d < fuel → mfr m0 m → ∃ m', fX8_primes_L9 fuel (nI (fb_ct (pri (fun j => mB m0 (9 + 7 * 0 + j)) c) k)) (nI k) m = some (nI (fb_ct (pri (fun j => mB m0 (9 + 7 * 0 + j)) c) c), m') ∧ mfr m0 m' := by
  intro d
  induction d with
  | zero =>
    intro fuel k m h hf hm
    obtain ⟨l, rfl⟩ : ∃ l, fuel = l + 1 := ⟨fuel - 1, by omega⟩
    have : k = c := by omega
    subst this
    rw [fX8_primes_L9, mI_eq hm.2.1, hI, if_pos (nI_le (by omega) (by omega))]
    exact ⟨m, rfl, hm⟩
  | succ d ih =>
    intro fuel k m h hf hm
    obtain ⟨l, rfl⟩ : ∃ l, fuel = l + 1 := ⟨fuel - 1, by omega⟩
    obtain ⟨m1, k1, k2⟩ := m_isPrime (i := k) hm.1 hc ((mI_eq hm.2.1 1).trans hI) (by omega)
    rw [mfr_pri hm hc (by omega)] at k1
    rw [fX8_primes_L9, mI_eq hm.2.1, hI, if_neg (nI_ge (by omega) (by omega)), k1, nI_1, nI_1, Int32.add_zero]
    simp only [Option.bind_some, if_bi]
    have hk := ih l (k + 1) m1 (by omega) (by omega) (mfr_trans hm k2)
    rw [ct_succ] at hk
    cases a : pri (fun j => mB m0 (9 + 7 * 0 + j)) c k
    · rw [a] at hk
      exact hk
    · rw [a] at hk
      exact hk
theorem m_primesIn_L {c z : Nat} {m0 : mS} (hz : z ≠ 23) (hc : c ≤ 7) (hI : mI m0 1 = nI c) : ∀ (d fuel k : Nat) (m : mS), k + d = c → d < fuel → mfr m0 m → ∃ m', fX8_primesIn_L4 z fuel (nI (fb_ct (fun j => inn (mB m0 (9 + 7 * 0 + j)) (mB m0 z) && pri (fun j => mB m0 (9 + 7 * 0 + j)) c j) k)) (nI k) m = some (nI (fb_ct (fun j => inn (mB m0 (9 + 7 * 0 + j)) (mB m0 z) && pri (fun j => mB m0 (9 + 7 * 0 + j)) c j) c), m') ∧ mfr m0 m' := by
  intro d
  induction d with
  | zero =>
    intro fuel k m h hf hm
    obtain ⟨l, rfl⟩ : ∃ l, fuel = l + 1 := ⟨fuel - 1, by omega⟩
    have : k = c := by omega
    subst this
    rw [fX8_primesIn_L4, mI_eq hm.2.1, hI, if_pos (nI_le (by omega) (by omega))]
    exact ⟨m, rfl, hm⟩
  | succ d ih =>
    intro fuel k m h hf hm
    obtain ⟨l, rfl⟩ : ∃ l, fuel = l + 1 := ⟨fuel - 1, by omega⟩
    have k7 : k < 7 := by omega
    obtain ⟨m1, k1, k2⟩ := m_isPrime (i := k) hm.1 hc ((mI_eq hm.2.1 1).trans hI) (by omega)
    rw [mfr_pri hm hc (by omega)] at k1
    rw [fX8_primesIn_L4, mI_eq hm.2.1, hI, if_neg (nI_ge (by omega) (by omega)), if_pos (vin7 k7), cl7 k7, m_lies, hm.2.2 _ (by omega), hm.2.2 _ hz]
    simp only [Option.bind_some, if_bi, k1, Int32.add_zero, nI_1]
    have hk := ih l (k + 1)
    rw [ct_succ] at hk
    cases b : inn (mB m0 (9 + 7 * 0 + k)) (mB m0 z)
    · simp only [b, Bool.false_and, Bool.false_eq_true, if_false] at hk ⊢
      exact hk m (by omega) (by omega) hm
    · cases a : pri (fun j => mB m0 (9 + 7 * 0 + j)) c k
      · simp only [a, b, Bool.and_false, Bool.false_eq_true, if_false, if_true] at hk ⊢
        exact hk m1 (by omega) (by omega) (mfr_trans hm k2)
      · simp only [a, b, Bool.and_true, if_true] at hk ⊢
        exact hk m1 (by omega) (by omega) (mfr_trans hm k2)
theorem ct_pad {P : Nat → Bool} {c n : Nat} (h : c ≤ n) : fb_ct (fun j => decide (j < c) && P j) n = fb_ct P c := by
  obtain ⟨d, rfl⟩ : ∃ d, n = c + d := ⟨n - c, by omega⟩
  have z : fb_ct (fun k => decide (c + k < c) && P (c + k)) d = 0 := fb_ct_zero.mpr (fun k _ => by rw [decide_eq_false (show ¬ c + k < c by omega), Bool.false_and])
  rw [fb_ct_split, z, Nat.add_zero]
  exact fb_ct_cong (fun k hk => by rw [decide_eq_true hk, Bool.true_and])
theorem aeq_15 {a a' : cS} (h : ∀ n, n ≠ 15 → cB a' n = cB a n) (h2 : a'.2.2 = a.2.2) : aeq a a' := ⟨fun n hn => h n (by omega), sI_eq h2 0, sI_eq h2 2, sT_eq h2⟩
theorem fam_pri {a : cS} {m : mS} {c : Nat} (f3 : ∀ j, j < c → cB a (8 + j) = mB m (9 + j)) {i : Nat} (hi : i < c) : pri (fun j => mB m (9 + 7 * 0 + j)) c i = pri (fun j => cB a (8 + 8 * 0 + j)) c i := pri_cong (fun j hj => (fam_eq f3 j hj).symm) hi
theorem g_primes {a : cS} {m : mS} (h : Rel a m) : Meet0 (fX7_primes a) (fX8_primes m) := by
  obtain ⟨c, hc, f1, f2, f3⟩ := h.2.2.2.1
  obtain ⟨M, a', q1, q2, q3, q4, q5, q6⟩ := p_primes hc h.1 f1
  obtain ⟨m', k1, k2⟩ := m_primes_L (m0 := vI m 0 0) hc f2 c 1100 0 (vI m 0 0) (by omega) (by omega) (mfr_refl (Vm_vI h.2.1 0 0))
  refine ⟨nI (fb_ct (pri (fun j => cB a (8 + 8 * 0 + j)) c) c), a', m', ?_, ?_, Rel_keep (Rel_v0 h 0) (aeq_15 q4 q3) (mfr_meq k2) q5 k2.1⟩
  · unfold fX7_primes
    rw [q2]
    simp only [Option.bind_some]
    rw [bc7 a' M q1, ← ct_pad (n := 7) hc]
    exact congrArg (fun z => some (nI z, a')) (fb_ct_cong (fun j _ => q6 j))
  · unfold fX8_primes
    refine (show fX8_primes_L9 1100 0 0 (vI m 0 0) = _ from k1).trans ?_
    exact congrArg (fun z => some (nI z, m')) (fb_ct_cong (fun j hj => fam_pri (m := vI m 0 0) f3 hj))
theorem g_primesWithin {a : cS} {m : mS} (h : Rel a m) (p : Int32) : Meets 1 2 (fX7_primesWithin p a) (fX8_primesWithin p m) := by
  rcases set_or p with ⟨i, hi, rfl⟩ | ⟨s1, s2⟩
  · obtain ⟨s1, s2⟩ := set_in hi
    obtain ⟨c, hc, f1, f2, f3⟩ := h.2.2.2.1
    obtain ⟨M, a', q1, q2, q3, q4, q5, q6⟩ := p_primes hc h.1 f1
    obtain ⟨M2, r1, r2, r3⟩ := p_pw i hc ((sI_eq q3 0).trans f1) q1
    obtain ⟨m', k1, k2⟩ := m_primesIn_L (z := i) (m0 := vI m 0 0) (by omega) hc f2 c 1100 0 (vI m 0 0) (by omega) (by omega) (mfr_refl (Vm_vI h.2.1 0 0))
    refine Meets.ok (r := nI (fb_ct (fun j => inn (cB a (8 + 8 * 0 + j)) (cB a i) && pri (fun j => cB a (8 + 8 * 0 + j)) c j) c)) (a' := a') (m' := m') ?_ ?_ (mI_eq k2.2.1 0) (Rel_keep (Rel_v0 h 0) (aeq_15 q4 q3) (mfr_meq k2) q5 k2.1)
    · unfold fX7_primesWithin
      simp only [s1, Option.bind_some, Sum.elim_inr, if_pos (lt8 hi), q2, r2]
      rw [bc7 a' M2 r1, ← ct_pad (n := 7) hc]
      refine congrArg (fun z => some (Sum.inr (nI z, a'))) (fb_ct_cong (fun j hj => ?_))
      rw [r3 j, q6 j]
      by_cases e : j < c
      · rw [decide_eq_true e, Bool.true_and, Bool.true_and, Bool.true_and, q4 _ (by omega), q4 _ (by omega), Bool.and_comm]
      · rw [decide_eq_false e, Bool.false_and, Bool.false_and, Bool.false_and]
    · unfold fX8_primesWithin
      simp only [s2, pass_0, Option.bind_some, one_0, vin8 hi, cl8 hi, if_true]
      rw [show fX8_primesIn i (vI m 0 0) = _ from k1]
      simp only [Option.bind_some]
      refine congrArg (fun z => some (nI z, m')) (fb_ct_cong (fun j hj => ?_))
      rw [fam_pri (m := vI m 0 0) f3 hj, ← fam_eq (m := vI m 0 0) f3 j hj, mB_vI, ← h.2.2.1 i hi]
  · refine Meets.e1 (r := 0) h ?_ ?_
    · unfold fX7_primesWithin
      simp only [s1, Option.bind_some, Sum.elim_inl]
    · unfold fX8_primesWithin
      simp only [s2, pass_1, Option.bind_some, if_true]
/-! familyErrors -/
noncomputable def isU (f : Nat → BS) (c i : Nat) : Bool := same (un f (fun j => pri f c j && inn (f j) (f i)) c) (f i)
noncomputable def sameP (f : Nat → BS) (c i j : Nat) : Bool := pd (∀ k, k < c → pri f c k = true → inn (f k) (f i) = inn (f k) (f j))
theorem sameP_comm (f : Nat → BS) (c i j : Nat) : sameP f c i j = sameP f c j i := pd_congr ⟨fun h k hk hp => (h k hk hp).symm, fun h k hk hp => (h k hk hp).symm⟩
theorem isU_cong {f g : Nat → BS} {c i : Nat} (h : ∀ j, j < c → f j = g j) (hi : i < c) : isU f c i = isU g c i := by
  unfold isU
  rw [h i hi, un_cong (fun j hj => by show (pri f c j && inn (f j) (g i)) = (pri g c j && inn (g j) (g i)); rw [h j hj, pri_cong h hj]) h]
theorem sameP_cong {f g : Nat → BS} {c i j : Nat} (h : ∀ j, j < c → f j = g j) (hi : i < c) (hj : j < c) : sameP f c i j = sameP g c i j := by
  unfold sameP
  refine pd_congr (forall_congr' fun k => ?_)
  constructor
  · intro z hk hp
    rw [← pri_cong h hk] at hp
    rw [← h k hk, ← h i hi, ← h j hj]
    exact z hk hp
  · intro z hk hp
    rw [pri_cong h hk] at hp
    rw [h k hk, h i hi, h j hj]
    exact z hk hp
def t1 (u : Nat → Bool) (D : Nat → Nat → Bool) (c : Nat) : Nat → Nat
  | 0 => 0
  | i + 1 => t1 u D c i + (if u i then 0 else 1) + fb_ct (fun j => decide (i < j) && D i j) c
def t2 (u : Nat → Bool) (D : Nat → Nat → Bool) : Nat → Nat
  | 0 => 0
  | i + 1 => t2 u D i + (if u i then 0 else 1) + fb_ct (fun j => D i j) i
theorem t1_step (u : Nat → Bool) (D : Nat → Nat → Bool) (n : Nat) : ∀ i, i ≤ n → t1 u D (n + 1) i = t1 u D n i + fb_ct (fun l => D l n) i
  | 0, _ => rfl
  | i + 1, h => by
    rw [t1, t1, t1_step u D n i (by omega), fb_ct_succ, fb_ct_succ, decide_eq_true (show i < n by omega), Bool.true_and]
    omega
theorem t1_t2 (u : Nat → Bool) (D : Nat → Nat → Bool) (hD : ∀ i j, D i j = D j i) : ∀ n, t1 u D n n = t2 u D n
  | 0 => rfl
  | n + 1 => by
    have z : fb_ct (fun j => decide (n < j) && D n j) (n + 1) = 0 := fb_ct_zero.mpr (fun k hk => by rw [decide_eq_false (show ¬ n < k by omega), Bool.false_and])
    have e : fb_ct (fun l => D l n) n = fb_ct (fun j => D n j) n := fb_ct_cong (fun k _ => hD k n)
    rw [t1, t2, t1_step u D n n (Nat.le_refl _), t1_t2 u D hD n, z, e]
    omega
theorem mask_eq {M N : Nat} : M = N ↔ ∀ j, M.testBit j = N.testBit j := ⟨fun h j => by rw [h], fun h => Nat.eq_of_testBit_eq h⟩
theorem p_err_L {c i M Mi : Nat} {s : cS} (hc : c ≤ 7) (hI : sI s 0 = nI c) (hM : M < 128) (hMi : Mi < 128) (D : Nat → Bool) (hD : ∀ j, j < c → ∀ N, N < 128 → (∀ l, N.testBit l = (decide (l < c) && M.testBit l && inn (cB s (8 + 8 * 0 + l)) (cB s (8 + 8 * 0 + j)))) → (Mi = N ↔ D j = true)) (k0 : Int32 → cS → Option (Int32 × cS)) (e0 : Nat) : ∀ (d fuel j : Nat), j + d = c → i < j → d < fuel → fX0_errors_L48 0 (nI M) (nI i) (nI Mi) k0 fuel (nI (e0 + fb_ct (fun l => decide (i < l) && D l) j)) (nI j) s = k0 (nI (e0 + fb_ct (fun l => decide (i < l) && D l) c)) s := by
  intro d
  induction d with
  | zero =>
    intro fuel j h hi hf
    obtain ⟨l, rfl⟩ : ∃ l, fuel = l + 1 := ⟨fuel - 1, by omega⟩
    have : j = c := by omega
    subst this
    rw [fX0_errors_L48, hI, if_pos (nI_le (by omega) (by omega))]
  | succ d ih =>
    intro fuel j h hi hf
    obtain ⟨l, rfl⟩ : ∃ l, fuel = l + 1 := ⟨fuel - 1, by omega⟩
    have j7 : j < 7 := by omega
    obtain ⟨N, q1, q2, q3⟩ := p_pw (F := 0) (8 + 8 * 0 + j) hc hI hM
    rw [fX0_errors_L48, hI, if_neg (nI_ge (by omega) (by omega)), if_pos (vin7 j7), cl7 j7, q2]
    simp only [Option.bind_some, nI_1]
    have hk := ih l (j + 1) (by omega) (by omega) (by omega)
    rw [ct_succ, decide_eq_true hi, Bool.true_and] at hk
    have e := hD j (by omega) N q1 q3
    rw [← hk]
    by_cases x : Mi = N
    · rw [if_pos (by rw [x]), e.mp x]
      rfl
    · rw [if_neg (fun z => x ((nI_eq (by omega) (by omega)).mp z)), ts_nt' (fun z => x (e.mpr z))]
      rfl
theorem p_err_L2 {c M : Nat} {s0 : cS} (hc : c ≤ 7) (hI : sI s0 0 = nI c) (hM : M < 128) (hb : ∀ j, M.testBit j = (decide (j < c) && pri (fun j => cB s0 (8 + 8 * 0 + j)) c j)) : ∀ (d fuel i : Nat) (s : cS), i + d = c → d < fuel → s.2.2 = s0.2.2 → (∀ n, n ≠ 15 → cB s n = cB s0 n) → Wf s → ∃ s', fX0_errors_L9 0 (nI M) fuel (nI (t1 (isU (fun j => cB s0 (8 + 8 * 0 + j)) c) (sameP (fun j => cB s0 (8 + 8 * 0 + j)) c) c i)) (nI i) s = some (nI (t1 (isU (fun j => cB s0 (8 + 8 * 0 + j)) c) (sameP (fun j => cB s0 (8 + 8 * 0 + j)) c) c c), s') ∧ s'.2.2 = s0.2.2 ∧ (∀ n, n ≠ 15 → cB s' n = cB s0 n) ∧ Wf s' := by
  intro d
  induction d with
  | zero =>
    intro fuel i s h hf h2 hB W
    obtain ⟨l, rfl⟩ : ∃ l, fuel = l + 1 := ⟨fuel - 1, by omega⟩
    have : i = c := by omega
    subst this
    rw [fX0_errors_L9, sI_eq h2, hI, if_pos (nI_le (by omega) (by omega))]
    exact ⟨s, rfl, h2, hB, W⟩
  | succ d ih =>
    intro fuel i s h hf h2 hB W
    obtain ⟨l, rfl⟩ : ∃ l, fuel = l + 1 := ⟨fuel - 1, by omega⟩
    have i7 : i < 7 := by omega
    have hIs : sI s 0 = nI c := (sI_eq h2 0).trans hI
    obtain ⟨Mi, q1, q2, q3⟩ := p_pw (F := 0) (8 + 8 * 0 + i) hc hIs hM
    obtain ⟨s1, r1, r2, r3⟩ := p_un (F := 0) (M := Mi) (i := i) (by decide) hc q1 (by omega) hIs
    have W2 : Wf s1 := Wf_up W (un_wf (fun j => W _) _ _) r3
    have B2 : ∀ n, n ≠ 15 → cB s1 n = cB s0 n := fun n hn => by rw [r3, zu_ne _ hn]; exact hB n hn
    have ep : same (un (fun j => cB s (8 + 8 * 0 + j)) (fun j => Mi.testBit j) c) (cB s (8 + 8 * 0 + i)) = isU (fun j => cB s0 (8 + 8 * 0 + j)) c i := by
      unfold isU
      rw [hB _ (by omega)]
      refine congrArg (fun z => same z (cB s0 (8 + 8 * 0 + i))) (un_cong (fun j hj => ?_) (fun j hj => hB _ (by omega)))
      rw [q3 j, hb j, decide_eq_true hj, Bool.true_and, Bool.true_and, hB _ (by omega), hB _ (by omega)]
    have hD : ∀ j, j < c → ∀ N, N < 128 → (∀ l, N.testBit l = (decide (l < c) && M.testBit l && inn (cB s1 (8 + 8 * 0 + l)) (cB s1 (8 + 8 * 0 + j)))) → (Mi = N ↔ sameP (fun j => cB s0 (8 + 8 * 0 + j)) c i j = true) := by
      intro j hj N hN hb2
      unfold sameP
      rw [pd_iff, mask_eq]
      constructor
      · intro z k hk hp
        have := z k
        rw [q3 k, hb2 k, hb k, decide_eq_true hk, Bool.true_and, Bool.true_and, hp, Bool.true_and, Bool.true_and, hB _ (by omega), hB _ (by omega), B2 _ (by omega), B2 _ (by omega)] at this
        exact this
      · intro z k
        rw [q3 k, hb2 k, hb k]
        by_cases hk : k < c
        · rw [decide_eq_true hk, Bool.true_and, Bool.true_and, hB _ (by omega), hB _ (by omega), B2 _ (by omega), B2 _ (by omega)]
          cases hp : pri (fun j => cB s0 (8 + 8 * 0 + j)) c k
          · rfl
          · rw [Bool.true_and, Bool.true_and]
            exact z k hk hp
        · rw [decide_eq_false hk]
          rfl
    have hIs1 : sI s1 0 = nI c := (sI_eq r2 0).trans hIs
    rw [fX0_errors_L9, hIs, if_neg (nI_ge (by omega) (by omega)), if_pos (vin7 i7), cl7 i7, q2]
    simp only [Option.bind_some, r1, ep, if_bi, nI_1]
    obtain ⟨s', g1, g2, g3, g4⟩ := ih l (i + 1) s1 (by omega) (by omega) (r2.trans h2) B2 W2
    refine ⟨s', ?_, g2, g3, g4⟩
    rw [t1] at g1
    have z0 : fb_ct (fun l => decide (i < l) && sameP (fun j => cB s0 (8 + 8 * 0 + j)) c i l) (i + 1) = 0 := fb_ct_zero.mpr (fun k hk => by rw [decide_eq_false (by omega), Bool.false_and])
    cases a : isU (fun j => cB s0 (8 + 8 * 0 + j)) c i
    · rw [a] at g1
      simp only [Bool.false_eq_true, if_false] at g1 ⊢
      have := p_err_L (i := i) (Mi := Mi) hc hIs1 hM q1 (fun j => sameP (fun j => cB s0 (8 + 8 * 0 + j)) c i j) hD (fun y2_8 s8 => fX0_errors_L9 0 (nI M) l y2_8 (nI (i + 1)) s8) (t1 (isU (fun j => cB s0 (8 + 8 * 0 + j)) c) (sameP (fun j => cB s0 (8 + 8 * 0 + j)) c) c i + 1) (c - (i + 1)) 1100 (i + 1) (by omega) (by omega) (by omega)
      rw [z0, Nat.add_zero] at this
      exact this.trans g1
    · rw [a] at g1
      simp only [if_true, Nat.add_zero] at g1 ⊢
      have := p_err_L (i := i) (Mi := Mi) hc hIs1 hM q1 (fun j => sameP (fun j => cB s0 (8 + 8 * 0 + j)) c i j) hD (fun y2_8 s8 => fX0_errors_L9 0 (nI M) l y2_8 (nI (i + 1)) s8) (t1 (isU (fun j => cB s0 (8 + 8 * 0 + j)) c) (sameP (fun j => cB s0 (8 + 8 * 0 + j)) c) c i) (c - (i + 1)) 1100 (i + 1) (by omega) (by omega) (by omega)
      rw [z0, Nat.add_zero] at this
      exact this.trans g1
/-- the reference's rows 23 and 64 are its own -/
def mf2 (m m' : mS) : Prop := Vm m' ∧ m'.2 = m.2 ∧ ∀ r, r ≠ 23 → r ≠ 64 → mB m' r = mB m r
theorem mf2_of {m m' : mS} (h : mfr m m') : mf2 m m' := ⟨h.1, h.2.1, fun r hr _ => h.2.2 r hr⟩
theorem mf2_trans {a b c : mS} (h : mf2 a b) (g : mf2 b c) : mf2 a c := ⟨g.1, g.2.1.trans h.2.1, fun r hr h2 => (g.2.2 r hr h2).trans (h.2.2 r hr h2)⟩
theorem mf2_row {m m' : mS} (h : mf2 m m') {c : Nat} (hc : c ≤ 7) : ∀ j, j < c → mB m' (9 + 7 * 0 + j) = mB m (9 + 7 * 0 + j) := fun j hj => h.2.2 _ (by omega) (by omega)
theorem m_un_L {c i : Nat} {m0 : mS} (hc : c ≤ 7) (hI : mI m0 1 = nI c) (hi : i < c) : ∀ (d fuel k : Nat) (m : mS), k + d = c → d < fuel → mf2 m0 m → mB m 64 = un (fun j => mB m0 (9 + 7 * 0 + j)) (fun j => pri (fun j => mB m0 (9 + 7 * 0 + j)) c j && inn (mB m0 (9 + 7 * 0 + j)) (mB m0 (9 + 7 * 0 + i))) k → ∃ m', fX8_unites_L11 (9 + 7 * 0 + i) (-1) 1 64 fuel (nI k) m = some m' ∧ mf2 m0 m' ∧ mB m' 64 = un (fun j => mB m0 (9 + 7 * 0 + j)) (fun j => pri (fun j => mB m0 (9 + 7 * 0 + j)) c j && inn (mB m0 (9 + 7 * 0 + j)) (mB m0 (9 + 7 * 0 + i))) c := by
  intro d
  induction d with
  | zero =>
    intro fuel k m h hf hm hB
    obtain ⟨l, rfl⟩ : ∃ l, fuel = l + 1 := ⟨fuel - 1, by omega⟩
    have : k = c := by omega
    subst this
    rw [fX8_unites_L11, mI_eq hm.2.1, hI, if_pos (nI_le (by omega) (by omega))]
    exact ⟨m, rfl, hm, hB⟩
  | succ d ih =>
    intro fuel k m h hf hm hB
    obtain ⟨l, rfl⟩ : ∃ l, fuel = l + 1 := ⟨fuel - 1, by omega⟩
    have k7 : k < 7 := by omega
    have hIm : mI m 1 = nI c := (mI_eq hm.2.1 1).trans hI
    rw [fX8_unites_L11, hIm, if_neg (nI_ge (by omega) (by omega)), if_neg (nI_m1 (by omega)), if_pos (vin7 k7), cl7 k7, m_lies, nI_1]
    simp only [Option.bind_some, if_bi, one_0]
    rw [mf2_row hm hc k (by omega), mf2_row hm hc i hi]
    have hk := ih l (k + 1)
    rw [un] at hk
    cases a : inn (mB m0 (9 + 7 * 0 + k)) (mB m0 (9 + 7 * 0 + i))
    · rw [a, Bool.and_false] at hk
      exact hk m (by omega) (by omega) hm hB
    · rw [a, Bool.and_true] at hk
      rw [if_pos rfl]
      obtain ⟨m1, k1, k2⟩ := m_isPrime (i := k) hm.1 hc hIm (by omega)
      rw [pri_cong (mf2_row hm hc) (by omega)] at k1
      rw [k1]
      simp only [Option.bind_some, if_bi]
      have hm1 := mf2_trans hm (mf2_of k2)
      have h64 : mB m1 64 = mB m 64 := k2.2.2 64 (by decide)
      cases b : pri (fun j => mB m0 (9 + 7 * 0 + j)) c k
      · rw [b] at hk
        exact hk m1 (by omega) (by omega) hm1 (h64.trans hB)
      · rw [b] at hk
        rw [if_pos rfl] at hk ⊢
        obtain ⟨m2, g1, g2, g3, g4⟩ := m_joins 64 (9 + 7 * 0 + k) 0 64 hm1.1
        rw [if_pos (vin7 k7), g1]
        simp only [Option.bind_some]
        refine hk m2 (by omega) (by omega) (mf2_trans hm1 ⟨g2, g4, fun r hr h2 => by rw [g3, zu_ne _ h2]⟩) ?_
        rw [g3, zu_at, h64, hB, mf2_row hm1 hc k (by omega)]
theorem bi_or0 (x : Bool) : bi x ||| 0 = bi x := by cases x <;> decide
theorem bi_or1 (x : Bool) : bi x ||| 1 = bi true := by cases x <;> decide
theorem m_err_L {c a b : Nat} {m0 : mS} (e0 : Int32) (hc : c ≤ 7) (hI : mI m0 1 = nI c) (ha : a < c) (hb : b < c) (k0 : Int32 → mS → Option (Int32 × mS)) : ∀ (d fuel k : Nat) (m : mS) (x : Bool), k + d = c → d < fuel → mf2 m0 m → (x = true ↔ ∃ j, j < k ∧ pri (fun j => mB m0 (9 + 7 * 0 + j)) c j = true ∧ inn (mB m0 (9 + 7 * 0 + j)) (mB m0 (9 + 7 * 0 + a)) ≠ inn (mB m0 (9 + 7 * 0 + j)) (mB m0 (9 + 7 * 0 + b))) → ∃ m', fX8_familyErrors_L70 e0 (nI a) (nI b) k0 fuel (bi x) (nI k) m = k0 (bi (!sameP (fun j => mB m0 (9 + 7 * 0 + j)) c a b)) m' ∧ mf2 m0 m' := by
  intro d
  induction d with
  | zero =>
    intro fuel k m x h hf hm hx
    obtain ⟨l, rfl⟩ : ∃ l, fuel = l + 1 := ⟨fuel - 1, by omega⟩
    have : k = c := by omega
    subst this
    rw [fX8_familyErrors_L70, mI_eq hm.2.1, hI, if_pos (nI_le (by omega) (by omega))]
    refine ⟨m, ?_, hm⟩
    have : x = !sameP (fun j => mB m0 (9 + 7 * 0 + j)) k a b := by
      apply bool_ext
      rw [hx, Bool.not_eq_true', ← Bool.not_eq_true, sameP, pd_iff]
      constructor
      · rintro ⟨j, h1, h2, h3⟩ z
        exact h3 (z j h1 h2)
      · intro z
        apply Classical.byContradiction
        intro w
        apply z
        intro j h1 h2
        apply Classical.byContradiction
        intro h3
        exact w ⟨j, h1, h2, h3⟩
    rw [this]
  | succ d ih =>
    intro fuel k m x h hf hm hx
    obtain ⟨l, rfl⟩ : ∃ l, fuel = l + 1 := ⟨fuel - 1, by omega⟩
    have k7 : k < 7 := by omega
    have a7 : a < 7 := by omega
    have b7 : b < 7 := by omega
    have hIm : mI m 1 = nI c := (mI_eq hm.2.1 1).trans hI
    obtain ⟨m1, k1, k2⟩ := m_isPrime (i := k) hm.1 hc hIm (by omega)
    rw [pri_cong (mf2_row hm hc) (by omega)] at k1
    have hm1 := mf2_trans hm (mf2_of k2)
    have ra := mf2_row hm1 hc a ha
    have rb := mf2_row hm1 hc b hb
    have rk := mf2_row hm1 hc k (by omega)
    rw [fX8_familyErrors_L70, hIm, if_neg (nI_ge (by omega) (by omega)), k1]
    simp only [Option.bind_some, if_bi, vin7 k7, vin7 a7, vin7 b7, cl7 k7, cl7 a7, cl7 b7, if_true, m_lies, nI_1, bi_or0, bi_or1, bi_inj]
    rw [ra, rb, rk]
    cases p : pri (fun j => mB m0 (9 + 7 * 0 + j)) c k
    · simp only [Bool.false_eq_true, if_false]
      refine ih l (k + 1) m1 x (by omega) (by omega) hm1 (hx.trans ?_)
      constructor
      · rintro ⟨j, h1, h2, h3⟩
        exact ⟨j, by omega, h2, h3⟩
      · rintro ⟨j, h1, h2, h3⟩
        refine ⟨j, ?_, h2, h3⟩
        by_cases e : j = k
        · rw [e, p] at h2
          exact Bool.noConfusion h2
        · omega
    · simp only [if_true]
      by_cases e2 : inn (mB m0 (9 + 7 * 0 + k)) (mB m0 (9 + 7 * 0 + a)) = inn (mB m0 (9 + 7 * 0 + k)) (mB m0 (9 + 7 * 0 + b))
      · rw [if_pos e2]
        refine ih l (k + 1) m1 x (by omega) (by omega) hm1 (hx.trans ?_)
        constructor
        · rintro ⟨j, h1, h2, h3⟩
          exact ⟨j, by omega, h2, h3⟩
        · rintro ⟨j, h1, h2, h3⟩
          refine ⟨j, ?_, h2, h3⟩
          by_cases e : j = k
          · rw [e] at h3
            exact absurd e2 h3
          · omega
      · rw [if_neg e2]
        refine ih l (k + 1) m1 true (by omega) (by omega) hm1 ?_
        exact ⟨fun _ => ⟨k, by omega, p, e2⟩, fun _ => rfl⟩
theorem m_err_L2 {c a : Nat} {m0 : mS} (hc : c ≤ 7) (hI : mI m0 1 = nI c) (ha : a < c) (k0 : Int32 → mS → Option (Int32 × mS)) (e0 : Nat) : ∀ (d fuel b : Nat) (m : mS), b + d = a → d < fuel → mf2 m0 m → ∃ m', fX8_familyErrors_L59 (nI a) k0 fuel (nI (e0 + fb_ct (fun j => sameP (fun j => mB m0 (9 + 7 * 0 + j)) c a j) b)) (nI b) m = k0 (nI (e0 + fb_ct (fun j => sameP (fun j => mB m0 (9 + 7 * 0 + j)) c a j) a)) m' ∧ mf2 m0 m' := by
  intro d
  induction d with
  | zero =>
    intro fuel b m h hf hm
    obtain ⟨l, rfl⟩ : ∃ l, fuel = l + 1 := ⟨fuel - 1, by omega⟩
    have : b = a := by omega
    subst this
    rw [fX8_familyErrors_L59, if_pos (nI_le (by omega) (by omega))]
    exact ⟨m, rfl, hm⟩
  | succ d ih =>
    intro fuel b m h hf hm
    obtain ⟨l, rfl⟩ : ∃ l, fuel = l + 1 := ⟨fuel - 1, by omega⟩
    rw [fX8_familyErrors_L59, if_neg (nI_ge (by omega) (by omega))]
    obtain ⟨m1, g1, g2⟩ := m_err_L (a := a) (b := b) (nI (e0 + fb_ct (fun j => sameP (fun j => mB m0 (9 + 7 * 0 + j)) c a j) b)) hc hI ha (by omega) (fun y4_12 s12 => if y4_12 = 0 then (fX8_familyErrors_L59 (nI a) k0 l (nI (e0 + fb_ct (fun j => sameP (fun j => mB m0 (9 + 7 * 0 + j)) c a j) b) + 1) (nI b + 1) s12) else (fX8_familyErrors_L59 (nI a) k0 l (nI (e0 + fb_ct (fun j => sameP (fun j => mB m0 (9 + 7 * 0 + j)) c a j) b) + 0) (nI b + 1) s12)) c 1100 0 m false (by omega) (by omega) hm ⟨fun z => Bool.noConfusion z, fun ⟨j, hj, _⟩ => absurd hj (Nat.not_lt_zero j)⟩
    obtain ⟨m2, r1, r2⟩ := ih l (b + 1) m1 (by omega) (by omega) g2
    refine ⟨m2, ?_, r2⟩
    refine Eq.trans (show _ = _ from g1) ?_
    rw [if_bi, ← r1, ct_succ, nI_1 b, Int32.add_zero, nI_1]
    cases sameP (fun j => mB m0 (9 + 7 * 0 + j)) c a b <;> rfl
theorem m_err_L3 {c : Nat} {m0 : mS} (hc : c ≤ 7) (hI : mI m0 1 = nI c) : ∀ (d fuel i : Nat) (m : mS), i + d = c → d < fuel → mf2 m0 m → ∃ m', fX8_familyErrors_L9 fuel (nI (t2 (isU (fun j => mB m0 (9 + 7 * 0 + j)) c) (sameP (fun j => mB m0 (9 + 7 * 0 + j)) c) i)) (nI i) m = some (nI (t2 (isU (fun j => mB m0 (9 + 7 * 0 + j)) c) (sameP (fun j => mB m0 (9 + 7 * 0 + j)) c) c), m') ∧ mf2 m0 m' := by
  intro d
  induction d with
  | zero =>
    intro fuel i m h hf hm
    obtain ⟨l, rfl⟩ : ∃ l, fuel = l + 1 := ⟨fuel - 1, by omega⟩
    have : i = c := by omega
    subst this
    rw [fX8_familyErrors_L9, mI_eq hm.2.1, hI, if_pos (nI_le (by omega) (by omega))]
    exact ⟨m, rfl, hm⟩
  | succ d ih =>
    intro fuel i m h hf hm
    obtain ⟨l, rfl⟩ : ∃ l, fuel = l + 1 := ⟨fuel - 1, by omega⟩
    have i7 : i < 7 := by omega
    have hIm : mI m 1 = nI c := (mI_eq hm.2.1 1).trans hI
    obtain ⟨m1, k1, k2, k3, k4⟩ := m_joins (9 + 7 * 0 + i) (9 + 7 * 0 + i) 2 64 hm.1
    rw [jn2_self] at k3
    have hm1 : mf2 m0 m1 := mf2_trans hm ⟨k2, k4, fun r _ h2 => by rw [k3]; exact zu_ne _ h2 _⟩
    have x64 : mB m1 64 = fun _ => false := by rw [k3]; exact zu_at _ _ _
    obtain ⟨m2, g1, g2, g3⟩ := m_un_L (i := i) (m0 := m0) hc hI (by omega) c 1100 0 m1 (by omega) (by omega) hm1 (by rw [un]; exact x64)
    have eu : fX8_unites (9 + 7 * 0 + i) (-1) 1 64 m = some m2 := by
      unfold fX8_unites
      rw [k1]
      rw [nI_0] at g1
      exact g1
    have es : fX8_areSame 64 (9 + 7 * 0 + i) m2 = some (bi (isU (fun j => mB m0 (9 + 7 * 0 + j)) c i), m2) := by
      rw [m_areSame _ _ g2.1, g3, mf2_row g2 hc i (by omega)]
      rfl
    rw [fX8_familyErrors_L9, hIm, if_neg (nI_ge (by omega) (by omega)), if_pos (vin7 i7), cl7 i7, eu]
    simp only [Option.bind_some, vin7 i7, if_true, es, if_bi, nI_1, Int32.add_zero]
    cases u : isU (fun j => mB m0 (9 + 7 * 0 + j)) c i
    · simp only [Bool.false_eq_true, if_false]
      obtain ⟨m3, r1, r2⟩ := m_err_L2 (a := i) (m0 := m0) hc hI (by omega) (fun y1_13 s13 => fX8_familyErrors_L9 l y1_13 (nI (i + 1)) s13) (t2 (isU (fun j => mB m0 (9 + 7 * 0 + j)) c) (sameP (fun j => mB m0 (9 + 7 * 0 + j)) c) i + 1) i 1100 0 m2 (by omega) (by omega) g2
      obtain ⟨m4, s1, s2⟩ := ih l (i + 1) m3 (by omega) (by omega) r2
      simp only [fb_ct, Nat.add_zero, nI_0] at r1
      refine ⟨m4, r1.trans (Eq.trans ?_ s1), s2⟩
      rw [t2, u]
      rfl
    · simp only [if_true]
      obtain ⟨m3, r1, r2⟩ := m_err_L2 (a := i) (m0 := m0) hc hI (by omega) (fun y1_13 s13 => fX8_familyErrors_L9 l y1_13 (nI (i + 1)) s13) (t2 (isU (fun j => mB m0 (9 + 7 * 0 + j)) c) (sameP (fun j => mB m0 (9 + 7 * 0 + j)) c) i) i 1100 0 m2 (by omega) (by omega) g2
      obtain ⟨m4, s1, s2⟩ := ih l (i + 1) m3 (by omega) (by omega) r2
      simp only [fb_ct, Nat.add_zero, nI_0] at r1
      refine ⟨m4, r1.trans (Eq.trans ?_ s1), s2⟩
      rw [t2, u]
      rfl
theorem mf2_meq {m m' : mS} (h : mf2 m m') : meq m m' := ⟨fun r hr _ => h.2.2 r (by omega) (by omega), mI_eq h.2.1 1, mI_eq h.2.1 3, mT_eq h.2.1⟩
theorem t1_cong {u v : Nat → Bool} {D E : Nat → Nat → Bool} {c : Nat} (hu : ∀ i, i < c → u i = v i) (hD : ∀ i j, i < c → j < c → D i j = E i j) : ∀ n, n ≤ c → t1 u D c n = t1 v E c n
  | 0, _ => rfl
  | n + 1, h => by
    rw [t1, t1, t1_cong hu hD n (by omega), hu n (by omega), fb_ct_cong (p := fun j => decide (n < j) && D n j) (q := fun j => decide (n < j) && E n j) (fun k hk => by rw [hD n k (by omega) hk])]
theorem g_familyErrors {a : cS} {m : mS} (h : Rel a m) : Meet0 (fX7_familyErrors a) (fX8_familyErrors m) := by
  obtain ⟨c, hc, f1, f2, f3⟩ := h.2.2.2.1
  obtain ⟨M, a1, q1, q2, q3, q4, q5, q6⟩ := p_primes hc h.1 f1
  have fe : ∀ j, j < c → cB a1 (8 + 8 * 0 + j) = cB a (8 + 8 * 0 + j) := fun j hj => q4 _ (by omega)
  obtain ⟨a2, g1, g2, g3, g4⟩ := p_err_L2 (s0 := a1) (M := M) hc ((sI_eq q3 0).trans f1) q1 (fun j => by
    rw [q6 j]
    by_cases e : j < c
    · rw [pri_cong fe e]
    · rw [decide_eq_false e, Bool.false_and, Bool.false_and]) c 1100 0 a1 (by omega) (by omega) rfl (fun _ _ => rfl) q5
  obtain ⟨m', k1, k2⟩ := m_err_L3 (m0 := vI m 0 0) hc f2 c 1100 0 (vI m 0 0) (by omega) (by omega) ⟨Vm_vI h.2.1 0 0, rfl, fun _ _ _ => rfl⟩
  have fm : ∀ j, j < c → cB a1 (8 + 8 * 0 + j) = mB (vI m 0 0) (9 + 7 * 0 + j) := fun j hj => (fe j hj).trans (fam_eq f3 j hj)
  refine ⟨nI (t1 (isU (fun j => cB a1 (8 + 8 * 0 + j)) c) (sameP (fun j => cB a1 (8 + 8 * 0 + j)) c) c c), a2, m', ?_, ?_, Rel_keep (Rel_v0 h 0) (aeq_trans (aeq_15 q4 q3) (aeq_15 g3 g2)) (mf2_meq k2) g4 k2.1⟩
  · unfold fX7_familyErrors fX0_errors
    rw [q2]
    simp only [Option.bind_some]
    rw [show fX0_errors_L9 0 (nI M) 1100 0 0 a1 = _ from g1]
    rfl
  · unfold fX8_familyErrors
    refine (show fX8_familyErrors_L9 1100 0 0 (vI m 0 0) = _ from k1).trans ?_
    rw [t1_cong (v := isU (fun j => mB (vI m 0 0) (9 + 7 * 0 + j)) c) (E := sameP (fun j => mB (vI m 0 0) (9 + 7 * 0 + j)) c) (fun i hi => isU_cong fm hi) (fun i j hi hj => sameP_cong fm hi hj) c (Nat.le_refl _), t1_t2 _ _ (fun i j => sameP_comm _ c i j)]
