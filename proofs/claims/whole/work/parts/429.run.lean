/-! ===== errorKind, errorPlace, run ===== -/
theorem p_beginAll (a : cS) (W : Wf a) : ∃ b, fX3_begin a = some b ∧ Wf b ∧ (∀ i, i < 8 → cB b (25 + i) = cB a i) ∧ (∀ n, n < 25 → cB b n = cB a n) ∧ sI b 3 = 0 ∧ sI b 4 = 0 ∧ sI b 5 = 0 ∧ sI b 8 = 0 ∧ sI b 9 = 0 ∧ sI b 10 = -1 ∧ sI b 0 = sI a 0 ∧ sI b 2 = sI a 2 ∧ sT b = sT a := by
  have key : ∀ (d fuel k : Nat) (s : cS), k + d = 8 → d < fuel → Wf s → s.2.2 = a.2.2 → (∀ i, i < k → cB s (25 + i) = cB a i) → (∀ n, n < 25 → cB s n = cB a n) → ∃ s', fX3_begin_L2 (fun s4 => some (uI (uI (uI (uI (uI (uI s4 3 0) 4 0) 5 0) 8 0) 9 0) 10 (-1))) fuel (nI k) s = some (uI (uI (uI (uI (uI (uI s' 3 0) 4 0) 5 0) 8 0) 9 0) 10 (-1)) ∧ Wf s' ∧ s'.2.2 = a.2.2 ∧ (∀ i, i < 8 → cB s' (25 + i) = cB a i) ∧ (∀ n, n < 25 → cB s' n = cB a n) := by
    intro d
    induction d with
    | zero =>
      intro fuel k s h hf Ws h2 h3 h4
      obtain ⟨l, rfl⟩ : ∃ l, fuel = l + 1 := ⟨fuel - 1, by omega⟩
      have : k = 8 := by omega
      subst this
      rw [fX3_begin_L2, if_pos (show (8 : Int32) ≤ nI 8 by decide)]
      exact ⟨s, rfl, Ws, h2, h3, h4⟩
    | succ d ih =>
      intro fuel k s h hf Ws h2 h3 h4
      obtain ⟨l, rfl⟩ : ∃ l, fuel = l + 1 := ⟨fuel - 1, by omega⟩
      have k8 : k < 8 := by omega
      obtain ⟨s1, e1, e2, e3⟩ := p_become (25 + k) k s
      rw [fX3_begin_L2, if_neg (ge_8 k8), if_neg (ge_8 k8), if_pos (vin8 k8), if_pos (vin8 k8), cl8 k8, e1, nI_1]
      simp only [Option.bind_some]
      refine ih l (k + 1) s1 (by omega) (by omega) (Wf_up Ws (Ws k) e2) (e3.trans h2) (fun i hi => ?_) (fun n hn => ?_)
      · rw [e2]
        by_cases z : i = k
        · rw [z]
          exact (zu_at _ _ _).trans (h4 k (by omega))
        · exact (zu_ne _ (by omega) _).trans (h3 i (by omega))
      · rw [e2]
        exact (zu_ne _ (by omega) _).trans (h4 n hn)
  obtain ⟨s', r1, r2, r3, r4, r5⟩ := key 8 1100 0 a rfl (by decide) W rfl (fun i hi => by omega) (fun _ _ => rfl)
  refine ⟨_, r1, r2, r4, r5, rfl, rfl, rfl, rfl, rfl, rfl, ?_, ?_, (sT_eq (s' := s') r3)⟩
  · exact sI_eq r3 0
  · exact sI_eq r3 2
theorem p_tellAll (a : cS) (W : Wf a) : ∃ b, fX3_tellSets a = some b ∧ Wf b ∧ b.2.2 = a.2.2 ∧ (∀ i, i < 8 → cB b i = cB a (25 + i)) ∧ (∀ n, 8 ≤ n → cB b n = cB a n) := by
  have key : ∀ (d fuel k : Nat) (s : cS), k + d = 8 → d < fuel → Wf s → s.2.2 = a.2.2 → (∀ i, i < k → cB s i = cB a (25 + i)) → (∀ n, 8 ≤ n → cB s n = cB a n) → ∃ s', fX3_tellSets_L2 fuel (nI k) s = some s' ∧ Wf s' ∧ s'.2.2 = a.2.2 ∧ (∀ i, i < 8 → cB s' i = cB a (25 + i)) ∧ (∀ n, 8 ≤ n → cB s' n = cB a n) := by
    intro d
    induction d with
    | zero =>
      intro fuel k s h hf Ws h2 h3 h4
      obtain ⟨l, rfl⟩ : ∃ l, fuel = l + 1 := ⟨fuel - 1, by omega⟩
      have : k = 8 := by omega
      subst this
      rw [fX3_tellSets_L2, if_pos (show (8 : Int32) ≤ nI 8 by decide)]
      exact ⟨s, rfl, Ws, h2, h3, h4⟩
    | succ d ih =>
      intro fuel k s h hf Ws h2 h3 h4
      obtain ⟨l, rfl⟩ : ∃ l, fuel = l + 1 := ⟨fuel - 1, by omega⟩
      have k8 : k < 8 := by omega
      obtain ⟨s1, e1, e2, e3⟩ := p_become k (25 + k) s
      rw [fX3_tellSets_L2, if_neg (ge_8 k8), if_neg (ge_8 k8), if_pos (vin8 k8), if_pos (vin8 k8), cl8 k8, e1, nI_1]
      simp only [Option.bind_some]
      refine ih l (k + 1) s1 (by omega) (by omega) (Wf_up Ws (Ws _) e2) (e3.trans h2) (fun i hi => ?_) (fun n hn => ?_)
      · rw [e2]
        by_cases z : i = k
        · rw [z]
          exact (zu_at _ _ _).trans (h4 _ (by omega))
        · exact (zu_ne _ (by omega) _).trans (h3 i (by omega))
      · rw [e2]
        exact (zu_ne _ (by omega) _).trans (h4 n hn)
  exact key 8 1100 0 a rfl (by decide) W rfl (fun i hi => by omega) (fun _ _ => rfl)
theorem mst_meq {m m' : mS} (h : mst false m m') : meq m m' := ⟨fun r hr h8 => by
  by_cases z : r < 8
  · exact h.2.2.1 rfl r z
  · exact h.2.1 r (by omega) (by omega), h.2.2.2.1 1 (by omega), h.2.2.2.1 3 (by omega), h.2.2.2.2⟩
theorem read_both (v : Bool) {a : cS} {m : mS} (hR : Rel a m) : ∃ a2 r m2, fX3_read a = some a2 ∧ fX8_reads (bi v) m = some (r, m2) ∧ Wf a2 ∧ aeq a a2 ∧ mst v m m2 ∧ sI a2 9 = mI m2 7 ∧ sI a2 10 = mI m2 8 ∧ (mI m2 7 = 0 → sI a2 8 = r ∧ (v = true → ∀ i, i < 8 → cB a2 (25 + i) = mB m2 i)) := by
  obtain ⟨W, V, hs, hf, ⟨L, hL, t1, t2, t3⟩⟩ := hR
  have hT : TX (fun k => (sT a k).toNatClampNeg) L := ⟨hL, fun k hk => by
    obtain ⟨b, b0, b1, b2, _⟩ := t3 k hk
    show 0 < (sT a k).toNatClampNeg ∧ (sT a k).toNatClampNeg < 256
    rw [b2, nI_clamp (by omega)]
    exact ⟨b0, b1⟩⟩
  have hc : cTx (fun k => (sT a k).toNatClampNeg) L a := ⟨t1, fun k hk => by
    obtain ⟨b, b0, b1, b2, _⟩ := t3 k hk
    show sT a k = nI (sT a k).toNatClampNeg
    rw [b2, nI_clamp (by omega)]⟩
  have hm : mTx (fun k => (sT a k).toNatClampNeg) L m := ⟨t2, fun k hk => by
    obtain ⟨b, b0, b1, b2, b3⟩ := t3 k hk
    show mT m k = nI (sT a k).toNatClampNeg
    rw [b2, b3, nI_clamp (by omega)]⟩
  generalize (fun k => (sT a k).toNatClampNeg) = T at *
  obtain ⟨b, c1, c2, c3, c4, c5, c6, c7, c8, c9, c10, c11, c12, c13⟩ := p_beginAll a W
  have hb : cTx T L b := ⟨c12.trans hc.1, fun k hk => by rw [c13]; exact hc.2 k hk⟩
  have ab : aeq a b := ⟨fun n hn => c4 n (by omega), c11, c12, c13⟩
  unfold fX8_reads
  have sl := sk_le T (Nat.zero_le L)
  obtain ⟨r, m2, e1, e2, e3⟩ := stm_L hT v (L - sk T L 0) 1100 0 0 b (vI (vI (vI (vI m 7 0) 8 (-1)) 5 0) 6 0) (by omega) (by omega) c2 V hb ⟨hm.1, hm.2⟩ (fun _ i hi => (c3 i hi).trans (hs i hi)) (Nat.zero_le _) c5 c6 c7 c8 c9 rfl rfl rfl
  have ms0 : mst v m (vI (vI (vI (vI m 7 0) 8 (-1)) 5 0) 6 0) := ⟨V, fun _ _ _ => rfl, fun _ _ _ => rfl, fun k hk => by rw [mI_vI, if_neg (by omega), mI_vI, if_neg (by omega), mI_vI, if_neg (by omega), mI_vI, if_neg (by omega)], rfl⟩
  have KK : ∀ (fuel t : Nat) (s : cS), t ≤ 201 → sI s 9 ≠ 0 → fX3_read_L7 (fun s6 => if (sI s6 9) = 0 then (if (sI s6 4) = 0 then (some (s6)) else ((fX3_refuseByte s6).bind (fun s7 => some (s7)))) else (some (s6))) (fun s8 => if (sI s8 9) = 0 then (if (sI s8 4) = 0 then (some (s8)) else ((fX3_refuseByte s8).bind (fun s9 => some (s9)))) else (some (s8))) (fuel + 1) (nI t) s = some s := fun fuel t s ht h9 => by
    rw [fX3_read_L7]
    simp only [if_neg h9]
    split <;> rfl
  have KE : ∀ (fuel t pe : Nat) (s : cS), t ≤ 200 → cTx T L s → sI s 9 = 0 → pe ≤ L → sI s 3 = nI pe → sk T L pe = L → fX3_read_L7 (fun s6 => if (sI s6 9) = 0 then (if (sI s6 4) = 0 then (some (s6)) else ((fX3_refuseByte s6).bind (fun s7 => some (s7)))) else (some (s6))) (fun s8 => if (sI s8 9) = 0 then (if (sI s8 4) = 0 then (some (s8)) else ((fX3_refuseByte s8).bind (fun s9 => some (s9)))) else (some (s8))) (fuel + 1) (nI t) s = if sI s 4 = 0 then some (uI s 3 (nI L)) else some (uI (uI (uI s 3 (nI L)) 9 1) 10 (nI L)) := fun fuel t pe s ht hs9 h9 hpe h3 hsk => by
    rw [fX3_read_L7, if_neg (show ¬ (200 : Int32) < nI t from nI_nlt (a := 200) ht (by decide)), if_pos h9, p_blanks hT hs9 hpe h3, hsk]
    simp only [Option.bind_some]
    rw [show sI (uI s 3 (nI L)) 3 = nI L from rfl, show fX4_length (uI s 3 (nI L)) = nI L from hs9.1, if_neg (nI_nlt (Nat.le_refl _) (by omega)), if_pos (show sI (uI s 3 (nI L)) 9 = 0 from h9)]
    rfl
  have rd : fX3_read a = fX3_read_L7 (fun s6 => if (sI s6 9) = 0 then (if (sI s6 4) = 0 then (some (s6)) else ((fX3_refuseByte s6).bind (fun s7 => some (s7)))) else (some (s6))) (fun s8 => if (sI s8 9) = 0 then (if (sI s8 4) = 0 then (some (s8)) else ((fX3_refuseByte s8).bind (fun s9 => some (s9)))) else (some (s8))) 1100 0 b := by
    unfold fX3_read
    rw [c1]
    rfl
  rcases e3 with ⟨kd, pl, r1, r2, ⟨n, b', g1, g2, g3, g4, g5, g6, g7⟩⟩ | ⟨r1, r2, n, b', g1, g2, g3, g4, g5, g6, g7, ⟨pe, g8, g9, g10⟩, g11, g12⟩
  · have go := g1 (fun s6 => if (sI s6 9) = 0 then (if (sI s6 4) = 0 then (some (s6)) else ((fX3_refuseByte s6).bind (fun s7 => some (s7)))) else (some (s6))) (fun s8 => if (sI s8 9) = 0 then (if (sI s8 4) = 0 then (some (s8)) else ((fX3_refuseByte s8).bind (fun s9 => some (s9)))) else (some (s8))) ((1099 - n) + 1) 0 (by omega)
    rw [show (1099 - n) + 1 + n = 1100 from by omega, nI_0, Nat.zero_add] at go
    rcases g7 with ⟨g7, g8⟩ | ⟨g7, g8, ⟨pe, g9, g10, g11⟩, hkd, hpl⟩
    · have nk : sI b' 9 ≠ 0 := by rw [g7]; exact kd_ne g5
      refine ⟨b', r, m2, rd.trans (go.trans (KK _ _ _ (by omega) nk)), e1, g3, aeq_trans ab g4, ms0.trans e2, g7.trans r1.symm, g8.trans r2.symm, fun z => ?_⟩
      rw [r1] at z
      exact absurd z (kd_ne g5)
    · have tb : cTx T L b' := ⟨g4.2.2.1.trans hb.1, fun k hk => by rw [g4.2.2.2]; exact hb.2 k hk⟩
      refine ⟨_, r, m2, rd.trans (go.trans ((KE _ _ pe _ (by omega) tb g7 g9 g10 g11).trans (if_neg g8))), e1, g3, aeq_trans ab (aeq_trans g4 ⟨fun _ _ => rfl, rfl, rfl, rfl⟩), ms0.trans e2, by rw [r1, hkd]; rfl, by rw [r2, hpl]; rfl, fun z => ?_⟩
      rw [r1, hkd] at z
      exact absurd z (kd_ne (Or.inl rfl))
  · have go := g1 (fun s6 => if (sI s6 9) = 0 then (if (sI s6 4) = 0 then (some (s6)) else ((fX3_refuseByte s6).bind (fun s7 => some (s7)))) else (some (s6))) (fun s8 => if (sI s8 9) = 0 then (if (sI s8 4) = 0 then (some (s8)) else ((fX3_refuseByte s8).bind (fun s9 => some (s9)))) else (some (s8))) ((1099 - n) + 1) 0 (by omega)
    rw [show (1099 - n) + 1 + n = 1100 from by omega, nI_0, Nat.zero_add] at go
    have tb : cTx T L b' := ⟨g4.2.2.1.trans hb.1, fun k hk => by rw [g4.2.2.2]; exact hb.2 k hk⟩
    refine ⟨_, r, m2, rd.trans (go.trans ((KE _ _ pe _ (by omega) tb g5 g8 g9 g10).trans (if_pos g7))), e1, g3, aeq_trans ab (aeq_trans g4 ⟨fun _ _ => rfl, rfl, rfl, rfl⟩), ms0.trans e2, ?_, ?_, fun _ => ⟨?_, g12⟩⟩
    · rw [sI_ne _ (by decide), g5, r1]
    · rw [sI_ne _ (by decide), g6, c10, r2]
      rfl
    · rw [sI_ne _ (by decide)]
      exact g11
theorem g_errorKind {a : cS} {m : mS} (h : Rel a m) : Meet0 (fX7_errorKind a) (fX8_errorKind m) := by
  obtain ⟨a2, r, m2, e1, e2, e3, e4, e5, e6, e7, e8⟩ := read_both false (Rel_v0 h 0)
  refine ⟨mI m2 7, a2, m2, ?_, ?_, Rel_keep (Rel_v0 h 0) e4 (mst_meq e5) e3 e5.1⟩
  · unfold fX7_errorKind fX3_kind
    rw [e1]
    simp only [Option.bind_some, e6]
  · unfold fX8_errorKind
    rw [show fX8_reads 0 (vI m 0 0) = some (r, m2) from e2]
    rfl
theorem g_errorPlace {a : cS} {m : mS} (h : Rel a m) : Meet0 (fX7_errorPlace a) (fX8_errorPlace m) := by
  obtain ⟨a2, r, m2, e1, e2, e3, e4, e5, e6, e7, e8⟩ := read_both false (Rel_v0 h 0)
  refine ⟨mI m2 8, a2, m2, ?_, ?_, Rel_keep (Rel_v0 h 0) e4 (mst_meq e5) e3 e5.1⟩
  · unfold fX7_errorPlace fX3_place
    rw [e1]
    simp only [Option.bind_some, e7]
  · unfold fX8_errorPlace
    rw [show fX8_reads 0 (vI m 0 0) = some (r, m2) from e2]
    rfl
theorem g_run {a : cS} {m : mS} {ee : Nat} (h : Rel a m) : Meets 4 ee (fX7_run a) (fX8_run m) := by
  obtain ⟨a2, r, m2, e1, e2, e3, e4, e5, e6, e7, e8⟩ := read_both false h
  have e2 : fX8_reads 0 m = some (r, m2) := e2
  have hR2 : Rel a2 m2 := Rel_keep h e4 (mst_meq e5) e3 e5.1
  unfold fX7_run fX8_run fX3_kind
  rw [e1, e2]
  simp only [Option.bind_some, e6]
  by_cases c : mI m2 7 = 0
  · rw [if_pos c, if_pos c]
    have hR3 : Rel a (vI m2 0 0) := Rel_keep h (aeq_refl a) (meq_trans (mst_meq e5) (meq_v0 m2 0)) h.1 e5.1
    obtain ⟨a3, r3, m3, f1, f2, f3, f4, f5, f6, f7, f8⟩ := read_both true hR3
    have ea : a3 = a2 := Option.some.inj (f1.symm.trans e1)
    subst ea
    have f2 : fX8_reads 1 (vI m2 0 0) = some (r3, m3) := f2
    obtain ⟨f9, f10⟩ := f8 (by rw [← f6, e6]; exact c)
    obtain ⟨b, g1, g2, g3, g4, g5⟩ := p_tellAll a3 f3
    rw [g1]
    simp only [Option.bind_some, pass_0, one_0, f2]
    unfold fX3_statements
    rw [sI_eq g3, f9]
    obtain ⟨W, V, hs, ⟨cc, hc, i1, i2, i3⟩, ⟨L, hL, t1, t2, t3⟩⟩ := hR3
    refine Meets.ok rfl rfl (f5.2.2.2.1 0 (by omega)) ⟨g2, f5.1, fun i hi => (g4 i hi).trans (f10 rfl i hi), ⟨cc, hc, ?_, (f5.2.2.2.1 1 (by omega)).trans i2, fun j hj => ?_⟩, ⟨L, hL, ?_, (f5.2.2.2.1 3 (by omega)).trans t2, fun k hk => ?_⟩⟩
    · rw [sI_eq g3, f4.2.1]
      exact i1
    · rw [g5 _ (by omega), f4.1 _ (by omega), f5.2.1 _ (by omega) (by omega)]
      exact i3 j hj
    · rw [sI_eq g3, f4.2.2.1]
      exact t1
    · rw [sT_eq g3, f4.2.2.2, f5.2.2.2.2]
      exact t3 k hk
  · rw [if_neg c, if_neg c]
    refine Meets.e1 (r := 0) hR2 rfl ?_
    simp only [pass_1, Option.bind_some, if_true]
/-! meanSize, nothingShare -/
def szs (f : Nat → BS) : Nat → Nat
  | 0 => 0
  | k + 1 => szs f k + sz (f k)
theorem szs_le (f : Nat → BS) : ∀ k, szs f k ≤ 102 * k
  | 0 => Nat.le_refl _
  | k + 1 => by
    have := szs_le f k
    have := sz_le (f k)
    rw [szs]
    omega
theorem szs_cong {f g : Nat → BS} : ∀ {k : Nat}, (∀ i, i < k → f i = g i) → szs f k = szs g k
  | 0, _ => rfl
  | k + 1, h => by rw [szs, szs, h k (by omega), szs_cong (fun i hi => h i (by omega))]
theorem fin_mean : ∀ S, S < 817 → fn64 (FP.ddiv (FP.i2d (nI S)) 4620693217682128896) = true := by decide +kernel
theorem p_mean_L {a : cS} (W : Wf a) : ∀ (d fuel k : Nat), k + d = 8 → d < fuel → fX7_meanSize_L4 fuel (nI (szs (cB a) k)) (nI k) a = some (FP.ddiv (FP.i2d (nI (szs (cB a) 8))) 4620693217682128896, a) := by
  intro d
  induction d with
  | zero =>
    intro fuel k h hf
    obtain ⟨l, rfl⟩ : ∃ l, fuel = l + 1 := ⟨fuel - 1, by omega⟩
    have : k = 8 := by omega
    subst this
    have := szs_le (cB a) 8
    rw [fX7_meanSize_L4, if_pos (show (8 : Int32) ≤ nI 8 by decide), if_pos (fin_mean _ (by omega))]
  | succ d ih =>
    intro fuel k h hf
    obtain ⟨l, rfl⟩ : ∃ l, fuel = l + 1 := ⟨fuel - 1, by omega⟩
    have k8 : k < 8 := by omega
    rw [fX7_meanSize_L4, if_neg (ge_8 k8), if_pos (vin8 k8), cl8 k8, p_count k a W, nI_add, nI_1]
    exact ih l (k + 1) (by omega) (by omega)
theorem m_mean_L (m : mS) : ∀ (d fuel k : Nat), k + d = 8 → d < fuel → fX8_meanSize_L9 fuel (nI (szs (mB m) k)) (nI k) m = some (FP.ddiv (FP.i2d (nI (szs (mB m) 8))) 4620693217682128896, m) := by
  intro d
  induction d with
  | zero =>
    intro fuel k h hf
    obtain ⟨l, rfl⟩ : ∃ l, fuel = l + 1 := ⟨fuel - 1, by omega⟩
    have : k = 8 := by omega
    subst this
    have := szs_le (mB m) 8
    rw [fX8_meanSize_L9, if_pos (show (8 : Int32) ≤ nI 8 by decide), if_pos (fin_mean _ (by omega))]
  | succ d ih =>
    intro fuel k h hf
    obtain ⟨l, rfl⟩ : ∃ l, fuel = l + 1 := ⟨fuel - 1, by omega⟩
    have k8 : k < 8 := by omega
    rw [fX8_meanSize_L9, if_neg (ge_8 k8), if_pos (vin8 k8), cl8 k8, m_sizeOf]
    simp only [Option.bind_some, nI_add, nI_1]
    exact ih l (k + 1) (by omega) (by omega)
theorem g_meanSize {a : cS} {m : mS} (h : Rel a m) : ∃ r a' m', fX7_meanSize a = some (r, a') ∧ fX8_meanSize m = some (r, m') ∧ Rel a' m' := by
  refine ⟨_, a, vI m 0 0, p_mean_L h.1 8 1100 0 rfl (by decide), ?_, Rel_v0 h 0⟩
  have := m_mean_L (vI m 0 0) 8 1100 0 rfl (by decide)
  rw [szs_cong (f := mB (vI m 0 0)) (g := cB a) (k := 8) (fun i hi => (h.2.2.1 i hi).symm)] at this
  exact this
theorem fin_share : ∀ S, S < 9 → fn32 (FP.fdiv (FP.i2f (nI S)) 1090519040) = true ∧ fn64 (FP.f2d (FP.fdiv (FP.i2f (nI S)) 1090519040)) = true := by decide +kernel
theorem g_nothingShare {a : cS} {m : mS} (h : Rel a m) : ∃ r a' m', fX7_nothingShare a = some (r, a') ∧ fX8_nothingShare m = some (r, m') ∧ fn64 (FP.f2d r) = true ∧ Rel a' m' := by
  have vl := vt_le (cB a) 0
  have fs := fin_share (vt (cB a) 0) (by omega)
  refine ⟨FP.fdiv (FP.i2f (nI (vt (cB a) 0))) 1090519040, a, vI m 0 0, ?_, ?_, fs.2, Rel_v0 h 0⟩
  · unfold fX7_nothingShare
    rw [show fX7_votesFor 0 a = _ from p_votes a (k := 0) (by decide)]
    simp only [Option.bind_some]
    rw [if_pos fs.1]
  · unfold fX8_nothingShare
    have e : vt (mB (vI m 0 0)) 0 = vt (cB a) 0 := vt_eq h 0
    rw [show fX8_votes 0 (vI m 0 0) = _ from m_votes (vI m 0 0) (k := 0) (by decide), e]
    simp only [Option.bind_some]
    rw [if_pos fs.1]
