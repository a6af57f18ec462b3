/-! ===== reading: parts and sums ===== -/
theorem joinsHigh_err (how : Int32) {m : mS} (h : mI m 7 ≠ 0) : fX8_joinsHighest how m = some m := by
  unfold fX8_joinsHighest
  rw [if_neg h]
theorem joinsHigh (how : Int32) {hh : Nat} (hl : hh + 1 < 40) {m : mS} (V : Vm m) (h7 : mI m 7 = 0) (h4 : mI m 4 = nI (hh + 2)) : ∃ m', fX8_joinsHighest how m = some m' ∧ Vm m' ∧ mB m' (24 + hh) = jn how (mB m (24 + hh)) (mB m (24 + (hh + 1))) ∧ (∀ r, r ≠ 24 + hh → mB m' r = mB m r) ∧ mI m' 4 = nI (hh + 1) ∧ (∀ k, k ≠ 4 → mI m' k = mI m k) ∧ mT m' = mT m := by
  unfold fX8_joinsHighest
  have e4 : mI m 4 - 1 = nI (hh + 1) := by rw [h4, nI_pred]
  have e5 : mI (vI m 4 (nI (hh + 1))) 4 = nI (hh + 1) := rfl
  rw [if_pos h7, e4, e5, nI_pred]
  simp only [vin40 (show hh < 40 by omega), vin40 hl, cl40 (show hh < 40 by omega), cl40 hl, if_true, bind_sm]
  obtain ⟨m', h1, h2, h3, h5⟩ := m_joins (24 + hh) (24 + (hh + 1)) how (24 + hh) (m := vI m 4 (nI (hh + 1))) V
  refine ⟨m', h1, h2, ?_, fun r hr => ?_, mI_eq h5 4, fun k hk => (mI_eq h5 k).trans (if_neg hk), mT_eq (m := vI m 4 (nI (hh + 1))) h5⟩
  · rw [h3]; exact zu_at _ _ _
  · rw [h3]; exact zu_ne _ hr _
/-- behind a factor: on, or out -/
theorem par_L {T : Nat → Nat} {L : Nat} (h : TX T L) (v : Bool) {o : Nat} (F : mS → Option mS) (HF : FacOK T L v o F) (ho : o ≤ 8) : ∀ (d fuel p hh : Nat) (a : cS) (m : mS), sk T L p + d = L → d + 1 < fuel → Wf a → Vm m → cTx T L a → mTx T L m → (v = true → ∀ i, i < 8 → cB a (25 + i) = mB m i) → p ≤ L → sI a 3 = nI p → sI a 4 = 3 → sI a 5 = nI o → sI a 9 = 0 → mI m 5 = nI p → mI m 4 = nI (hh + 1) → hh ≤ 2 * o + 1 → mI m 6 = nI o → mI m 7 = 0 → sI a (12 + 2 * o) = 1 → (v = true → cB a (43 + o) = mB m (24 + hh)) → ∃ m', fX8_part_L4 F fuel m = some m' ∧ mfo hh m m' ∧ (ErrS T L a m' p ∨ ∃ n a' p', Go n a a' ∧ cfo o a a' ∧ sI a' 3 = nI p' ∧ p' ≤ L ∧ n + p ≤ p' ∧ sI a' 4 = 3 ∧ sI a' 5 = nI o ∧ sI a' 9 = 0 ∧ mI m' 4 = nI (hh + 1) ∧ mI m' 6 = nI o ∧ mI m' 7 = 0 ∧ mI m' 8 = mI m 8 ∧ sI a' (12 + 2 * o) = 1 ∧ QP T L v o a m' hh a' p') := by
  have hL := h.1
  intro d
  induction d using Nat.strongRecOn with
  | _ d ih =>
  intro fuel p hh a m hd hf W V ha hm hv hp h3 h4 h5 h9 g5 g4 hle g6 g7 hb hX
  obtain ⟨f, rfl⟩ : ∃ f, fuel = f + 1 := ⟨fuel - 1, by omega⟩
  obtain ⟨k1, k2⟩ := sk_le T hp
  have hmb := m_blanks h hm hp g5
  have hch := ch_lt h (sk T L p)
  have fm1 : mfo (hh + 1) m (vI m 5 (nI (sk T L p))) := mfo_u V (by decide) _ _
  rw [fX8_part_L4, if_pos g7, hmb]
  simp only [Option.bind_some]
  by_cases c38 : ch T L (sk T L p) = 38
  · have ql : sk T L p < L := by
      apply Classical.byContradiction
      intro z0
      rw [(ch_0 h _).mpr (by omega)] at c38
      exact absurd c38 (by decide)
    have eq : T (sk T L p) = 38 := by rw [← c38]; exact (if_pos ql).symm
    rw [if_pos (show nI (ch T L (sk T L p)) = 38 by rw [c38]; rfl), show mI (vI m 5 (nI (sk T L p))) 5 + 1 = nI (sk T L p + 1) from by show nI _ + 1 = _; rw [nI_1], vI_twice]
    generalize hq : sk T L p = q at *
    have g : Go 1 a (uI (uI (uI a 3 (nI q)) 3 (nI (q + 1))) 4 2) := by
      refine Go.one h ha hp h3 h9 (by rw [hq]; exact ql) ?_
      rw [hq, rs_3 _ (show sI (uI a 3 (nI q)) 4 = 3 from h4)]
      unfold fX3_readBehindFactor
      rw [if_pos (show nI (T q) = 38 by rw [eq]; rfl), c_pass (p := q) 2 rfl]
      rfl
    have fb : cfi a (uI (uI (uI a 3 (nI q)) 3 (nI (q + 1))) 4 2) := (cfi_u W (Or.inl rfl) _).trans ((cfi_u (a := uI a 3 (nI q)) W (Or.inl rfl) _).trans (cfi_u (a := uI (uI a 3 (nI q)) 3 (nI (q + 1))) W (Or.inr (Or.inl rfl)) _))
    have ob : ∀ k, 11 ≤ k → sI (uI (uI (uI a 3 (nI q)) 3 (nI (q + 1))) 4 2) k = sI a k := fun k hk => fb.2.2.1 k (by omega) (by omega) (by omega) (by omega) (by omega)
    obtain ⟨m2, e1, e2, e3⟩ := HF (uI (uI (uI a 3 (nI q)) 3 (nI (q + 1))) 4 2) (vI m 5 (nI (q + 1))) (q + 1) (hh + 1) ⟨fb.1, V, fb.tx ha, ⟨hm.1, hm.2⟩, hv, by omega, rfl, rfl, h5, ho, h9, rfl, g4, g6, g7⟩ (by omega) (Or.inr ((ob _ (by omega)).trans hb))
    rw [e1]
    simp only [Option.bind_some]
    have fm2 : mfo (hh + 1) m m2 := (mfo_u V (by decide) _ _).trans e2
    rcases e3 with ⟨kd, pl, r1, r2, rx, r3⟩ | ⟨n, c, p', r1, r2, r3, r4, r5, r6, r7, r8, r9, r10, r11, r12, r13, r14, t1, t2, t3, t4⟩
    · have nk : mI m2 7 ≠ 0 := by
        obtain ⟨_, _, _, _, _, _, hk, _⟩ := r3
        rw [r1]
        exact kd_ne hk
      obtain ⟨f', rfl⟩ : ∃ f', f = f' + 1 := ⟨f - 1, by omega⟩
      rw [joinsHigh_err _ nk]
      simp only [Option.bind_some]
      rw [fX8_part_L4, if_neg nk]
      exact ⟨m2, rfl, fm2.less (by omega), Or.inl ⟨kd, pl, r1, r2, rx, Err.step g (p' := q + 1) (by omega) fb.aeq r3⟩⟩
    · obtain ⟨m3, j1, j2, j3, j4, j5, j6, j7⟩ := joinsHigh 1 (hh := hh) (by omega) e2.1 r12 r10
      rw [j1]
      simp only [Option.bind_some]
      have fm3 : mfo hh m m3 := (fm2.less (by omega)).trans ⟨j2, fun r hr => j4 r (by omega), fun k hk => j6 k (by omega), j7⟩
      have fac := (fb.cfo (o := o) (by omega)).trans r2
      have s1 := sk_le T r4
      obtain ⟨m4, u1, u2, u3⟩ := ih (L - sk T L p') (by omega) f p' hh c m3 (by omega) (by omega) r2.1 j2 (fac.tx ha) (fm3.tx hm) (fun hvt i hi => by rw [fac.2.1 _ (by omega), fm3.2.1 _ (by omega)]; exact hv hvt i hi) r4 r3 r7 r8 r9 ((j6 5 (by decide)).trans t1) j5 hle ((j6 6 (by decide)).trans r11) ((j6 7 (by decide)).trans r12) r14 (fun hvt => by
        rw [t4 hvt, ob _ (by omega), hb, if_neg (by decide), j3]
        show jn 1 (cB a (43 + o)) (mB m2 (24 + (hh + 1))) = _
        rw [hX hvt, fm2.2.1 (24 + hh) (by omega)])
      refine ⟨m4, u1, fm3.trans u2, ?_⟩
      rcases u3 with ⟨kd, pl, w1, w2, wx, w3⟩ | ⟨n', c', p'', w1, w2, w3, w4, w5, w6, w7, w8, w9, w10, w11, w12, w13, w14, w15, w16, w17, w18⟩
      · exact Or.inl ⟨kd, pl, w1, w2, wx, Err.step (g.trans r1) (p' := p') (by omega) fac.aeq w3⟩
      · exact Or.inr ⟨1 + n + n', c', p'', (g.trans r1).trans w1, fac.trans w2, w3, w4, by omega, w6, w7, w8, w9, w10, w11, w12.trans ((j6 8 (by decide)).trans r13), w13, w14, w15, w16.trans t2, w17.trans (t3.trans (ob _ (by omega))), w18⟩
  · rw [if_neg (show ¬ nI (ch T L (sk T L p)) = 38 from ch_ne (d := 38) hch (by decide) c38)]
    exact ⟨_, rfl, fm1.less (by omega), Or.inr ⟨0, a, p, Go.refl a, cfo.of W (by omega) (fun _ _ _ _ => rfl) (fun _ _ _ _ _ _ => rfl) rfl, h3, hp, by omega, h4, h5, h9, g4, g6, g7, rfl, hb, rfl, c38, rfl, rfl, hX⟩⟩
theorem parOK {T : Nat → Nat} {L : Nat} (h : TX T L) (v : Bool) {o : Nat} (F : mS → Option mS) (HF : FacOK T L v o F) : ParOK T L v o (fX8_part F) := by
  have hL := h.1
  intro a m p hh P hle hb
  obtain ⟨m1, e1, e2, e3⟩ := HF a m p hh P (by omega) (Or.inl hb)
  obtain ⟨W, V, ha, hm, hv, hp, h3, h4, h5, ho, h9, g5, g4, g6, g7⟩ := P
  unfold fX8_part
  rw [e1]
  simp only [Option.bind_some]
  rcases e3 with ⟨kd, pl, r1, r2, rx, r3⟩ | ⟨n, c, p', r1, r2, r3, r4, r5, r6, r7, r8, r9, r10, r11, r12, r13, r14, t1, t2, t3, t4⟩
  · have nk : mI m1 7 ≠ 0 := by
      obtain ⟨_, _, _, _, _, _, hk, _⟩ := r3
      rw [r1]
      exact kd_ne hk
    rw [fX8_part_L4, if_neg nk]
    exact ⟨m1, rfl, e2, Or.inl ⟨kd, pl, r1, r2, rx, r3⟩⟩
  · have s1 := sk_le T r4
    obtain ⟨m4, u1, u2, u3⟩ := par_L h v F HF ho (L - sk T L p') 1100 p' hh c m1 (by omega) (by omega) r2.1 e2.1 (r2.tx ha) (e2.tx hm) (fun hvt i hi => by rw [r2.2.1 _ (by omega), e2.2.1 _ (by omega)]; exact hv hvt i hi) r4 r3 r7 r8 r9 t1 r10 hle r11 r12 r14 (fun hvt => by rw [t4 hvt, if_pos hb])
    refine ⟨m4, u1, e2.trans u2, ?_⟩
    rcases u3 with ⟨kd, pl, w1, w2, wx, w3⟩ | ⟨n', c', p'', w1, w2, w3, w4, w5, w6, w7, w8, w9, w10, w11, w12, w13, w14, w15, w16, w17, w18⟩
    · exact Or.inl ⟨kd, pl, w1, w2, wx, Err.step r1 (p' := p') (by omega) r2.aeq w3⟩
    · exact Or.inr ⟨n + n', c', p'', r1.trans w1, r2.trans w2, w3, w4, by omega, by omega, w6, w7, w8, w9, w10, w11, w12.trans r13, w13, w14, w15, w16.trans t2, w17.trans t3, w18⟩
/-- the signs of a sum -/
def opC (x : Nat) : Int32 := if x = 124 then 0 else if x = 45 then 2 else 3
theorem sum_step (F : mS → Option mS) (f x : Nat) (hx : x = 124 ∨ x = 45 ∨ x = 94) {m : mS} (h7 : mI m 7 = 0) : fX8_sums_L9 F (f + 1) (nI x) m = (F (vI m 5 ((mI m 5) + 1))).bind (fun s3 => (fX8_joinsHighest (opC x) s3).bind (fun s8 => (fX8_signBehindBlanks s8).bind (fun (r9, s9) => fX8_sums_L9 F f r9 s9))) := by
  rw [fX8_sums_L9, if_pos h7]
  rcases hx with rfl | rfl | rfl
  · rw [if_pos (show nI 124 = 124 from rfl)]
    simp only [if_pos (show nI 124 = 124 from rfl)]
    rfl
  · rw [if_neg (show ¬ nI 45 = 124 by decide), if_pos (show nI 45 = 45 from rfl)]
    simp only [if_neg (show ¬ nI 45 = 124 by decide), if_pos (show nI 45 = 45 from rfl)]
    rfl
  · rw [if_neg (show ¬ nI 94 = 124 by decide), if_neg (show ¬ nI 94 = 45 by decide), if_pos (show nI 94 = 94 from rfl)]
    simp only [if_neg (show ¬ nI 94 = 124 by decide), if_neg (show ¬ nI 94 = 45 by decide)]
    rfl
theorem sum_L {T : Nat → Nat} {L : Nat} (h : TX T L) (v : Bool) {o : Nat} (F : mS → Option mS) (HF : ParOK T L v o F) (ho : o ≤ 8) : ∀ (d fuel p hh : Nat) (a : cS) (m : mS), sk T L p + d = L → d + 1 < fuel → Wf a → Vm m → cTx T L a → mTx T L m → (v = true → ∀ i, i < 8 → cB a (25 + i) = mB m i) → p ≤ L → sI a 3 = nI p → sI a 4 = 3 → sI a 5 = nI o → sI a 9 = 0 → mI m 5 = nI (sk T L p) → ch T L (sk T L p) ≠ 38 → mI m 4 = nI (hh + 1) → hh ≤ 2 * o → mI m 6 = nI o → mI m 7 = 0 → sI a (12 + 2 * o) = 1 → (v = true → jn (sI a (11 + 2 * o)) (cB a (34 + o)) (cB a (43 + o)) = mB m (24 + hh)) → ∃ m', fX8_sums_L9 F fuel (nI (ch T L (sk T L p))) m = some m' ∧ mfo hh m m' ∧ (ErrS T L a m' p ∨ ∃ n a' p', Go n a a' ∧ cfo o a a' ∧ sI a' 3 = nI p' ∧ p' ≤ L ∧ n + p ≤ p' ∧ sI a' 4 = 3 ∧ sI a' 5 = nI o ∧ sI a' 9 = 0 ∧ mI m' 4 = nI (hh + 1) ∧ mI m' 6 = nI o ∧ mI m' 7 = 0 ∧ mI m' 8 = mI m 8 ∧ sI a' (12 + 2 * o) = 1 ∧ QS T L v o m' hh a' p') := by
  have hL := h.1
  intro d
  induction d using Nat.strongRecOn with
  | _ d ih =>
  intro fuel p hh a m hd hf W V ha hm hv hp h3 h4 h5 h9 g5 c38 g4 hle g6 g7 hb hX
  obtain ⟨f, rfl⟩ : ∃ f, fuel = f + 1 := ⟨fuel - 1, by omega⟩
  obtain ⟨k1, k2⟩ := sk_le T hp
  have hch := ch_lt h (sk T L p)
  by_cases cx : ch T L (sk T L p) = 124 ∨ ch T L (sk T L p) = 45 ∨ ch T L (sk T L p) = 94
  · rw [sum_step F f _ cx g7, g5, nI_1]
    have ql : sk T L p < L := by
      apply Classical.byContradiction
      intro z0
      rw [(ch_0 h _).mpr (by omega)] at cx
      exact absurd cx (by decide)
    have eq : ch T L (sk T L p) = T (sk T L p) := if_pos ql
    generalize hq : sk T L p = q at *
    obtain ⟨b, b1, b2, b3, b4, b5, b6, b7, b8⟩ := p_end (o := o) (opC (T q)) (s := uI a 3 (nI q)) W h5 ho
    rw [sI_ne _ (show 11 + 2 * o ≠ 3 by omega)] at b4
    have bb3 : sI b 3 = nI q := by rw [b5 3 (by omega) (by omega)]; rfl
    have g : Go 1 a (uI (uI b 3 (nI (q + 1))) 4 2) := by
      refine Go.one h ha hp h3 h9 (by rw [hq]; exact ql) ?_
      rw [hq, rs_3 _ (show sI (uI a 3 (nI q)) 4 = 3 from h4)]
      rw [eq] at cx
      unfold fX3_readBehindFactor
      rcases cx with cx | cx | cx
      · rw [cx] at b1 ⊢
        rw [if_neg (show ¬ nI 124 = 38 by decide), if_pos (show nI 124 = 124 from rfl), show fX3_endPart 0 (uI a 3 (nI q)) = some b from b1]
        simp only [Option.bind_some, c_pass 2 bb3]
      · rw [cx] at b1 ⊢
        rw [if_neg (show ¬ nI 45 = 38 by decide), if_neg (show ¬ nI 45 = 124 by decide), if_pos (show nI 45 = 45 from rfl), show fX3_endPart 2 (uI a 3 (nI q)) = some b from b1]
        simp only [Option.bind_some, c_pass 2 bb3]
      · rw [cx] at b1 ⊢
        rw [if_neg (show ¬ nI 94 = 38 by decide), if_neg (show ¬ nI 94 = 124 by decide), if_neg (show ¬ nI 94 = 45 by decide), if_pos (show nI 94 = 94 from rfl), show fX3_endPart 3 (uI a 3 (nI q)) = some b from b1]
        simp only [Option.bind_some, c_pass 2 bb3]
    have frb : cfo o a (uI (uI b 3 (nI (q + 1))) 4 2) := cfo.of b2 (by omega) (fun n hn hn2 hn3 => b3 n (by omega)) (fun k z3 z4 z5 z7 hk => by
      rw [sI_ne _ z4, sI_ne _ z3, b5 k (by omega) (by omega), sI_ne _ z3]) b8
    obtain ⟨m2, e1, e2, e3⟩ := HF (uI (uI b 3 (nI (q + 1))) 4 2) (vI m 5 (nI (q + 1))) (q + 1) (hh + 1) ⟨frb.1, V, frb.tx ha, ⟨hm.1, hm.2⟩, fun hvt i hi => (frb.2.1 _ (by omega)).trans (hv hvt i hi), by omega, rfl, rfl, (by rw [sI_ne _ (by decide), sI_ne _ (by decide), b5 5 (by omega) (by omega)]; exact h5), ho, (by rw [sI_ne _ (by decide), sI_ne _ (by decide), b5 9 (by omega) (by omega)]; exact h9), rfl, g4, g6, g7⟩ (by omega) (by rw [sI_ne _ (by omega), sI_ne _ (by omega)]; exact b7)
    rw [e1]
    simp only [Option.bind_some]
    have fm2 : mfo (hh + 1) m m2 := (mfo_u V (by decide) _ _).trans e2
    rcases e3 with ⟨kd, pl, r1, r2, rx, r3⟩ | ⟨n, c, p', r1, r2, r3, r4, r5, r6, r7, r8, r9, r10, r11, r12, r13, r14, t1, t2, t3, t4, t5⟩
    · have nk : mI m2 7 ≠ 0 := by
        obtain ⟨_, _, _, _, _, _, hk, _⟩ := r3
        rw [r1]
        exact kd_ne hk
      obtain ⟨x, x1, x2⟩ := rx
      obtain ⟨f', rfl⟩ : ∃ f', f = f' + 1 := ⟨f - 1, by omega⟩
      have sx := sk_le T x1
      rw [joinsHigh_err _ nk]
      simp only [Option.bind_some]
      rw [m_blanks h (fm2.tx hm) x1 x2]
      simp only [Option.bind_some]
      rw [fX8_sums_L9, if_neg (show ¬ mI (vI m2 5 (nI (sk T L x))) 7 = 0 from nk)]
      exact ⟨_, rfl, (fm2.less (by omega)).trans (mfo_u e2.1 (by decide) _ _), Or.inl ⟨kd, pl, r1, r2, ⟨_, sx.2, rfl⟩, Err.step g (p' := q + 1) (by omega) frb.aeq r3⟩⟩
    · obtain ⟨m3, j1, j2, j3, j4, j5, j6, j7⟩ := joinsHigh (opC (T q)) (hh := hh) (by omega) e2.1 r12 r10
      rw [eq, j1]
      simp only [Option.bind_some]
      have fm3 : mfo hh m m3 := (fm2.less (by omega)).trans ⟨j2, fun r hr => j4 r (by omega), fun k hk => j6 k (by omega), j7⟩
      have fac := frb.trans r2
      have s1 := sk_le T r4
      have hsj := sk_sk T r4
      have hmb := m_blanks h (fm3.tx hm) s1.2 ((j6 5 (by decide)).trans t1)
      rw [hsj] at hmb
      rw [hmb]
      simp only [Option.bind_some]
      have fm4 : mfo hh m (vI m3 5 (nI (sk T L p'))) := fm3.trans (mfo_u j2 (by decide) _ _)
      obtain ⟨m4, u1, u2, u3⟩ := ih (L - sk T L p') (by omega) f p' hh c (vI m3 5 (nI (sk T L p'))) (by omega) (by omega) r2.1 j2 (fac.tx ha) (fm4.tx hm) (fun hvt i hi => by rw [fac.2.1 _ (by omega), fm4.2.1 _ (by omega)]; exact hv hvt i hi) r4 r3 r7 r8 r9 rfl t2 j5 hle ((j6 6 (by decide)).trans r11) ((j6 7 (by decide)).trans r12) r14 (fun hvt => by
        show _ = mB m3 (24 + hh)
        rw [j3, t5 hvt, t3, t4, sI_ne _ (by omega), sI_ne _ (by omega), b6, fm2.2.1 (24 + hh) (by omega), ← hX hvt]
        show jn (opC (T q)) (cB b (34 + o)) _ = _
        rw [b4]
        rfl)
      refine ⟨m4, u1, fm4.trans u2, ?_⟩
      rcases u3 with ⟨kd, pl, w1, w2, wx, w3⟩ | ⟨n', c', p'', w1, w2, w3, w4, w5, w6, w7, w8, w9, w10, w11, w12, w13, w14⟩
      · exact Or.inl ⟨kd, pl, w1, w2, wx, Err.step (g.trans r1) (p' := p') (by omega) fac.aeq w3⟩
      · exact Or.inr ⟨1 + n + n', c', p'', (g.trans r1).trans w1, fac.trans w2, w3, w4, by omega, w6, w7, w8, w9, w10, w11, w12.trans ((j6 8 (by decide)).trans r13), w13, w14⟩
  · have n1 : ch T L (sk T L p) ≠ 124 := fun z => cx (Or.inl z)
    have n2 : ch T L (sk T L p) ≠ 45 := fun z => cx (Or.inr (Or.inl z))
    have n3 : ch T L (sk T L p) ≠ 94 := fun z => cx (Or.inr (Or.inr z))
    rw [fX8_sums_L9, if_pos g7, if_neg (show ¬ nI (ch T L (sk T L p)) = 124 from ch_ne (d := 124) hch (by decide) n1), if_neg (show ¬ nI (ch T L (sk T L p)) = 45 from ch_ne (d := 45) hch (by decide) n2), if_neg (show ¬ nI (ch T L (sk T L p)) = 94 from ch_ne (d := 94) hch (by decide) n3)]
    exact ⟨m, rfl, ⟨V, fun _ _ => rfl, fun _ _ => rfl, rfl⟩, Or.inr ⟨0, a, p, Go.refl a, cfo.of W (by omega) (fun _ _ _ _ => rfl) (fun _ _ _ _ _ _ => rfl) rfl, h3, hp, by omega, h4, h5, h9, g4, g6, g7, rfl, hb, g5, c38, n1, n2, n3, hX⟩⟩
theorem sumOK {T : Nat → Nat} {L : Nat} (h : TX T L) (v : Bool) {o : Nat} (F : mS → Option mS) (HF : ParOK T L v o F) : SumOK T L v o (fX8_sums F) := by
  have hL := h.1
  intro a m p hh P hle hS0 hS1 hb
  obtain ⟨m1, e1, e2, e3⟩ := HF a m p hh P (by omega) hb
  obtain ⟨W, V, ha, hm, hv, hp, h3, h4, h5, ho, h9, g5, g4, g6, g7⟩ := P
  unfold fX8_sums
  rw [e1]
  simp only [Option.bind_some]
  rcases e3 with ⟨kd, pl, r1, r2, ⟨x, x1, x2⟩, r3⟩ | ⟨n, c, p', r1, r2, r3, r4, r5, r6, r7, r8, r9, r10, r11, r12, r13, r14, t1, t2, t3, t4, t5⟩
  · have nk : mI m1 7 ≠ 0 := by
      obtain ⟨_, _, _, _, _, _, hk, _⟩ := r3
      rw [r1]
      exact kd_ne hk
    have sx := sk_le T x1
    rw [m_blanks h (e2.tx hm) x1 x2]
    simp only [Option.bind_some]
    rw [fX8_sums_L9, if_neg (show ¬ mI (vI m1 5 (nI (sk T L x))) 7 = 0 from nk)]
    exact ⟨_, rfl, e2.trans (mfo_u e2.1 (by decide) _ _), Or.inl ⟨kd, pl, r1, r2, ⟨_, sx.2, rfl⟩, r3⟩⟩
  · have s1 := sk_le T r4
    have hsj := sk_sk T r4
    have hmb := m_blanks h (e2.tx hm) s1.2 t1
    rw [hsj] at hmb
    rw [hmb]
    simp only [Option.bind_some]
    have fm4 : mfo hh m (vI m1 5 (nI (sk T L p'))) := e2.trans (mfo_u e2.1 (by decide) _ _)
    obtain ⟨m4, u1, u2, u3⟩ := sum_L h v F HF ho (L - sk T L p') 1100 p' hh c (vI m1 5 (nI (sk T L p'))) (by omega) (by omega) r2.1 e2.1 (r2.tx ha) (fm4.tx hm) (fun hvt i hi => by rw [r2.2.1 _ (by omega), fm4.2.1 _ (by omega)]; exact hv hvt i hi) r4 r3 r7 r8 r9 rfl t2 r10 hle r11 r12 r14 (fun hvt => by
      show _ = mB m1 (24 + hh)
      rw [t5 hvt, t3, t4, hS0, hS1]
      funext k
      exact Bool.false_or _)
    refine ⟨m4, u1, fm4.trans u2, ?_⟩
    rcases u3 with ⟨kd, pl, w1, w2, wx, w3⟩ | ⟨n', c', p'', w1, w2, w3, w4, w5, w6, w7, w8, w9, w10, w11, w12, w13, w14⟩
    · exact Or.inl ⟨kd, pl, w1, w2, wx, Err.step r1 (p' := p') (by omega) r2.aeq w3⟩
    · exact Or.inr ⟨n + n', c', p'', r1.trans w1, r2.trans w2, w3, w4, by omega, by omega, w6, w7, w8, w9, w10, w11, w12.trans r13, w13, w14⟩
theorem sumsD_OK {T : Nat → Nat} {L : Nat} (h : TX T L) (v : Bool) : ∀ (D o : Nat), 9 ≤ o + D → 1 ≤ D → SumOK T L v o (sumsD D) := by
  intro D
  induction D with
  | zero => intro o h1 h2; omega
  | succ D ih =>
    intro o h1 h2
    exact sumOK h v _ (parOK h v _ (facOK h v _ (fun o8 => ih (o + 1) (by omega) (by omega))))
