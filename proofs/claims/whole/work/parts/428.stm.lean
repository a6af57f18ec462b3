/-! ===== reading: statements ===== -/
def mst (v : Bool) (m m' : mS) : Prop := Vm m' ∧ (∀ r, 9 ≤ r → r < 24 → mB m' r = mB m r) ∧ (v = false → ∀ r, r < 8 → mB m' r = mB m r) ∧ (∀ k, k < 4 → mI m' k = mI m k) ∧ mT m' = mT m
theorem mst.trans {v : Bool} {a b c : mS} (h : mst v a b) (g : mst v b c) : mst v a c := ⟨g.1, fun r x y => (g.2.1 r x y).trans (h.2.1 r x y), fun hv r hr => (g.2.2.1 hv r hr).trans (h.2.2.1 hv r hr), fun k hk => (g.2.2.2.1 k hk).trans (h.2.2.2.1 k hk), g.2.2.2.2.trans h.2.2.2.2⟩
theorem mfo.mst {v : Bool} {hh : Nat} {m m' : mS} (h : mfo hh m m') : mst v m m' := ⟨h.1, fun r _ hr => h.2.1 r (by omega), fun _ r hr => h.2.1 r (by omega), fun k hk => h.2.2.1 k (by omega), h.2.2.2⟩
theorem mst.tx {T : Nat → Nat} {L : Nat} {v : Bool} {m m' : mS} (h : mst v m m') (hm : mTx T L m) : mTx T L m' := ⟨(h.2.2.2.1 3 (by omega)).trans hm.1, fun k hk => by rw [h.2.2.2.2]; exact hm.2 k hk⟩
theorem reads_err (x y : Int32) (f : Nat) {m : mS} (h : mI m 7 ≠ 0) : fX8_reads_L22 x (f + 1) y m = some (y, m) := by
  rw [fX8_reads_L22, if_neg h]
theorem isSetC : ∀ c, c < 256 → (if nI c - 97 < 0 then (0 : Int32) else if 7 < nI c - 97 then 0 else 1) = bi (decide (97 ≤ c ∧ c ≤ 104)) := by decide +kernel
theorem rs_0 (x : Int32) {a : cS} (h4 : sI a 4 = 0) : fX3_readSign x a = fX3_readTarget x a := by
  unfold fX3_readSign
  rw [if_pos h4, bind_sm]
theorem rs_1 (x : Int32) {a : cS} (h4 : sI a 4 = 1) : fX3_readSign x a = fX3_readEquals x a := by
  unfold fX3_readSign
  rw [h4]
  simp only [bind_sm]
  rfl
theorem stm_L {T : Nat → Nat} {L : Nat} (h : TX T L) (v : Bool) : ∀ (d fuel p N : Nat) (a : cS) (m : mS), sk T L p + d = L → d + 1 < fuel → Wf a → Vm m → cTx T L a → mTx T L m → (v = true → ∀ i, i < 8 → cB a (25 + i) = mB m i) → p ≤ L → sI a 3 = nI p → sI a 4 = 0 → sI a 5 = nI 0 → sI a 8 = nI N → sI a 9 = 0 → mI m 5 = nI p → mI m 6 = nI 0 → mI m 7 = 0 → ∃ r m', fX8_reads_L22 (bi v) fuel (nI N) m = some (r, m') ∧ mst v m m' ∧ ((∃ kd pl, mI m' 7 = nI kd ∧ mI m' 8 = nI pl ∧ Err T L a p kd pl) ∨ (mI m' 7 = 0 ∧ mI m' 8 = mI m 8 ∧ ∃ n a', Go n a a' ∧ n + p ≤ L ∧ Wf a' ∧ aeq a a' ∧ sI a' 9 = 0 ∧ sI a' 10 = sI a 10 ∧ sI a' 4 = 0 ∧ (∃ pe, pe ≤ L ∧ sI a' 3 = nI pe ∧ sk T L pe = L) ∧ sI a' 8 = r ∧ (v = true → ∀ i, i < 8 → cB a' (25 + i) = mB m' i))) := by
  have hL := h.1
  intro d
  induction d using Nat.strongRecOn with
  | _ d ih =>
  intro fuel p N a m hd hf W V ha hm hv hp h3 h4 h5 h8 h9 g5 g6 g7
  obtain ⟨f, rfl⟩ : ∃ f, fuel = f + 1 := ⟨fuel - 1, by omega⟩
  obtain ⟨f', rfl⟩ : ∃ f', f = f' + 1 := ⟨f - 1, by omega⟩
  obtain ⟨k1, k2⟩ := sk_le T hp
  have hmb := m_blanks h hm hp g5
  have hsi := sk_sk T hp
  have hch := ch_lt h (sk T L p)
  generalize hq : sk T L p = q at *
  have hm1 : mTx T L (vI m 5 (nI q)) := ⟨hm.1, hm.2⟩
  have fm1 : mfo 0 m (vI m 5 (nI q)) := mfo_u V (by decide) _ _
  rw [fX8_reads_L22, if_pos g7, hmb]
  simp only [Option.bind_some]
  by_cases c0 : ch T L q = 0
  · have qL : q = L := by have := (ch_0 h q).mp c0; omega
    rw [if_pos (show nI (ch T L q) = 0 by rw [c0]; rfl), if_pos (show mI (vI m 5 (nI q)) 3 ≤ mI (vI m 5 (nI q)) 5 by rw [hm1.1]; exact nI_le (by omega) (by omega))]
    exact ⟨nI N, _, rfl, fm1.mst, Or.inr ⟨g7, rfl, 0, a, Go.refl a, by omega, W, aeq_refl a, h9, rfl, h4, ⟨p, hp, h3, by rw [hq, qL]⟩, h8, hv⟩⟩
  · have ql : q < L := by
      apply Classical.byContradiction
      intro z0
      exact c0 ((ch_0 h q).mpr (by omega))
    have eq : ch T L q = T q := if_pos ql
    rw [if_neg (show ¬ nI (ch T L q) = 0 from ch_ne (d := 0) hch (by decide) c0), m_sign h hm1 (by omega) rfl]
    simp only [Option.bind_some]
    rw [eq] at hch ⊢
    have e4 : mI (vI (vI m 5 (nI q)) 4 0) 5 + 1 = nI (q + 1) := by show nI q + 1 = _; rw [nI_1]
    rw [show fX8_isSet (nI (T q) - 97) (vI (vI m 5 (nI q)) 4 0) = bi (decide (97 ≤ T q ∧ T q ≤ 104)) from isSetC (T q) hch, if_bi]
    by_cases cn : 97 ≤ T q ∧ T q ≤ 104
    · rw [decide_eq_true cn, if_pos rfl, e4]
      have e97 : nI (T q) - 97 = nI (T q - 97) := pk_sub (b := 97) cn.1
      have t8 : T q - 97 < 8 := by omega
      -- the target
      have g : Go 1 a (uI (uI (uI (uI a 3 (nI q)) 6 (nI (T q - 97))) 3 (nI (q + 1))) 4 1) := by
        refine Go.one h ha hp h3 h9 (by rw [hq]; exact ql) ?_
        rw [hq, rs_0 _ (show sI (uI a 3 (nI q)) 4 = 0 from h4)]
        unfold fX3_readTarget
        rw [isName_in _ _ m, show fX8_in (nI (T q)) 97 104 m = bi (decide (97 ≤ T q ∧ T q ≤ 104)) from m_in (lo := 97) (hi := 104) hch (by decide) (by decide) _, if_bi, decide_eq_true cn, if_pos rfl, e97, c_pass (p := q) 1 rfl]
        rfl
      have b3 : sI (uI (uI (uI (uI a 3 (nI q)) 6 (nI (T q - 97))) 3 (nI (q + 1))) 4 1) 3 = nI (q + 1) := rfl
      have b4 : sI (uI (uI (uI (uI a 3 (nI q)) 6 (nI (T q - 97))) 3 (nI (q + 1))) 4 1) 4 = 1 := rfl
      have b5 : sI (uI (uI (uI (uI a 3 (nI q)) 6 (nI (T q - 97))) 3 (nI (q + 1))) 4 1) 5 = nI 0 := h5
      have b6 : sI (uI (uI (uI (uI a 3 (nI q)) 6 (nI (T q - 97))) 3 (nI (q + 1))) 4 1) 6 = nI (T q - 97) := rfl
      have b8 : sI (uI (uI (uI (uI a 3 (nI q)) 6 (nI (T q - 97))) 3 (nI (q + 1))) 4 1) 8 = nI N := h8
      have b9 : sI (uI (uI (uI (uI a 3 (nI q)) 6 (nI (T q - 97))) 3 (nI (q + 1))) 4 1) 9 = 0 := h9
      have b10 : sI (uI (uI (uI (uI a 3 (nI q)) 6 (nI (T q - 97))) 3 (nI (q + 1))) 4 1) 10 = sI a 10 := rfl
      have bB : cB (uI (uI (uI (uI a 3 (nI q)) 6 (nI (T q - 97))) 3 (nI (q + 1))) 4 1) = cB a := rfl
      have bQ : aeq a (uI (uI (uI (uI a 3 (nI q)) 6 (nI (T q - 97))) 3 (nI (q + 1))) 4 1) := ⟨fun _ _ => rfl, rfl, rfl, rfl⟩
      have bT : cTx T L (uI (uI (uI (uI a 3 (nI q)) 6 (nI (T q - 97))) 3 (nI (q + 1))) 4 1) := ha
      generalize (uI (uI (uI (uI a 3 (nI q)) 6 (nI (T q - 97))) 3 (nI (q + 1))) 4 1) = b at *
      have Wb : Wf b := fun n => by rw [bB]; exact W n
      -- the sign behind it
      have hm2 : mTx T L (vI (vI (vI m 5 (nI q)) 4 0) 5 (nI (q + 1))) := ⟨hm.1, hm.2⟩
      have fm2 : mfo 0 m (vI (vI (vI m 5 (nI q)) 4 0) 5 (nI (q + 1))) := fm1.trans ((mfo_u (m := vI m 5 (nI q)) V (by decide) _ _).trans (mfo_u (m := vI (vI m 5 (nI q)) 4 0) V (by decide) _ _))
      have l1 : q + 1 ≤ L := by omega
      obtain ⟨j1, j2⟩ := sk_le T l1
      have ex := m_expects (e := 61) h hm2 (p := q + 1) l1 rfl g7 (by decide)
      have hch2 := ch_lt h (sk T L (q + 1))
      rw [vI_twice, vI_twice] at ex
      rw [show (61 : Int32) = nI 61 from rfl, ex]
      generalize hq2 : sk T L (q + 1) = q2 at *
      by_cases c61 : ch T L q2 = 61
      · have q2l : q2 < L := by
          apply Classical.byContradiction
          intro z0
          rw [(ch_0 h q2).mpr (by omega)] at c61
          exact absurd c61 (by decide)
        have eq2 : T q2 = 61 := by rw [← c61]; exact (if_pos q2l).symm
        rw [if_pos c61]
        simp only [Option.bind_some]
        rw [if_pos (show mI (vI (vI (vI m 5 (nI q)) 4 0) 5 (nI (q2 + 1))) 7 = 0 from g7)]
        obtain ⟨e, d1, d2, d3, d4, d5, d6, d7, d8⟩ := p_begin (o := 0) (s := uI b 3 (nI q2)) Wb b5 (by omega)
        have ee3 : sI e 3 = nI q2 := by rw [d5 3 (by omega) (by omega)]; rfl
        have ge : Go 1 b (uI (uI e 3 (nI (q2 + 1))) 4 2) := by
          refine Go.one h bT l1 b3 b9 (by rw [hq2]; exact q2l) ?_
          rw [hq2, rs_1 _ (show sI (uI b 3 (nI q2)) 4 = 1 from b4)]
          unfold fX3_readEquals
          rw [if_pos (show nI (T q2) = 61 by rw [eq2]; rfl), d1]
          simp only [Option.bind_some, c_pass 2 ee3]
        have frE : cfo 0 b (uI (uI e 3 (nI (q2 + 1))) 4 2) := cfo.of d2 (by omega) (fun n hn hn2 hn3 => d3 n (by omega)) (fun k z3 z4 z5 z7 hk => by
          rw [sI_ne _ z4, sI_ne _ z3, d5 k (by omega) (by omega), sI_ne _ z3]) d8
        have fm3 : mfo 0 m (vI (vI (vI m 5 (nI q)) 4 0) 5 (nI (q2 + 1))) := fm1.trans ((mfo_u (m := vI m 5 (nI q)) V (by decide) _ _).trans (mfo_u (m := vI (vI m 5 (nI q)) 4 0) V (by decide) _ _))
        obtain ⟨m2, e1, e2, e3⟩ := sumsD_OK h v 10 0 (by omega) (by omega) (uI (uI e 3 (nI (q2 + 1))) 4 2) (vI (vI (vI m 5 (nI q)) 4 0) 5 (nI (q2 + 1))) (q2 + 1) 0 ⟨frE.1, V, frE.tx bT, ⟨hm.1, hm.2⟩, fun hvt i hi => by rw [frE.2.1 _ (by omega), bB]; exact hv hvt i hi, by omega, rfl, rfl, (by rw [sI_ne _ (by decide), sI_ne _ (by decide), d5 5 (by omega) (by omega)]; exact b5), by omega, (by rw [sI_ne _ (by decide), sI_ne _ (by decide), d5 9 (by omega) (by omega)]; exact b9), rfl, rfl, g6, g7⟩ (by omega) d4 (by rw [sI_ne _ (by omega), sI_ne _ (by omega)]; exact d6) (by rw [sI_ne _ (by omega), sI_ne _ (by omega)]; exact d7)
        rw [e1]
        simp only [Option.bind_some]
        have fm4 := fm3.trans e2
        rcases e3 with ⟨kd, pl, r1, r2, rx, r3⟩ | ⟨n, c, p', r1, r2, r3, r4, r5, r6, r7, r8, r9, r10, r11, r12, r13, r14, t1, t2, t3, t4, t5, t6⟩
        · have nk : ¬ mI m2 7 = 0 := by
            obtain ⟨_, _, _, _, _, _, hk, _⟩ := r3
            rw [r1]
            exact kd_ne hk
          rw [if_neg nk, if_neg nk, reads_err _ _ _ nk]
          exact ⟨_, m2, rfl, fm4.mst, Or.inl ⟨kd, pl, r1, r2, Err.step (g.trans ge) (p' := q2 + 1) (by omega) (aeq_trans bQ frE.aeq) r3⟩⟩
        · rw [if_pos r12]
          obtain ⟨s1, s2⟩ := sk_le T r4
          have hsj := sk_sk T r4
          have ex2 := m_expects (e := 59) h (fm4.tx hm) (p := sk T L p') s2 t1 r12 (by decide)
          have hch3 := ch_lt h (sk T L p')
          rw [hsj] at ex2
          generalize hq3 : sk T L p' = q3 at *
          rw [show (59 : Int32) = nI 59 from rfl, ex2]
          have frc := frE.trans r2
          by_cases c59 : ch T L q3 = 59
          · have q3l : q3 < L := by
              apply Classical.byContradiction
              intro z0
              rw [(ch_0 h q3).mpr (by omega)] at c59
              exact absurd c59 (by decide)
            have eq3 : T q3 = 59 := by rw [← c59]; exact (if_pos q3l).symm
            rw [if_pos c59]
            simp only [Option.bind_some]
            rw [if_pos (show mI (vI m2 5 (nI (q3 + 1))) 7 = 0 from r12)]
            -- the class ends the statement
            obtain ⟨w, w1, w2, w3, w4, w5, w6, w7, w8⟩ := p_end (o := 0) 0 (s := uI c 3 (nI q3)) r2.1 r8 (by omega)
            rw [sI_ne _ (show 11 + 2 * 0 ≠ 3 by omega)] at w4
            have ww6 : sI w 6 = nI (T q - 97) := by rw [w5 6 (by omega) (by omega), sI_ne _ (by decide), frc.2.2.2.1 6 (by omega)]; exact b6
            have ww8 : sI w 8 = nI N := by rw [w5 8 (by omega) (by omega), sI_ne _ (by decide), frc.2.2.2.1 8 (by omega)]; exact b8
            obtain ⟨x, x1, x2, x3⟩ := p_become (25 + (T q - 97)) 34 w
            have xi : ∀ k, sI x k = sI w k := fun k => sI_eq x3 k
            have Wx : Wf x := Wf_up w2 (w2 34) x2
            have xx3 : sI (uI x 8 (nI (N + 1))) 3 = nI q3 := by rw [sI_ne _ (by decide), xi, w5 3 (by omega) (by omega)]; rfl
            have gw : Go 1 c (uI (uI (uI x 8 (nI (N + 1))) 3 (nI (q3 + 1))) 4 0) := by
              refine Go.one h (frc.tx bT) r4 r3 r9 (by rw [hq3]; exact q3l) ?_
              rw [hq3, rs_3 _ (show sI (uI c 3 (nI q3)) 4 = 3 from r7)]
              unfold fX3_readBehindFactor
              rw [eq3, if_neg (show ¬ nI 59 = 38 by decide), if_neg (show ¬ nI 59 = 124 by decide), if_neg (show ¬ nI 59 = 45 by decide), if_neg (show ¬ nI 59 = 94 by decide), if_neg (show ¬ nI 59 = 41 by decide), if_pos (show nI 59 = 59 from rfl), if_pos (show sI (uI c 3 (nI q3)) 5 = 0 from r8), bind_sm]
              unfold fX3_endStatement
              rw [w1]
              simp only [Option.bind_some]
              rw [ww6, if_pos (vin8 t8), if_pos (by decide), cl8 t8, show 34 + (0 : Int32).toNatClampNeg = 34 from rfl, x1]
              simp only [Option.bind_some]
              rw [xi 8, ww8, nI_1]
              rw [c_pass 0 xx3]
              rfl
            have aw : aeq c (uI (uI (uI x 8 (nI (N + 1))) 3 (nI (q3 + 1))) 4 0) := by
              refine ⟨fun n hn => ?_, ?_, ?_, ?_⟩
              · show cB x n = _
                rw [x2, zu_ne _ (by omega), w3 n (by omega)]
                rfl
              · rw [sI_ne _ (by decide), sI_ne _ (by decide), sI_ne _ (by decide), xi, w5 0 (by omega) (by omega)]; rfl
              · rw [sI_ne _ (by decide), sI_ne _ (by decide), sI_ne _ (by decide), xi, w5 2 (by omega) (by omega)]; rfl
              · exact (sT_eq x3).trans w8
            have zN : ∀ i, i < 8 → cB (uI (uI (uI x 8 (nI (N + 1))) 3 (nI (q3 + 1))) 4 0) (25 + i) = if i = T q - 97 then jn (sI c (11 + 2 * 0)) (cB c (34 + 0)) (cB c (43 + 0)) else cB a (25 + i) := fun i hi => by
              show cB x (25 + i) = _
              rw [x2]
              by_cases y : i = T q - 97
              · rw [if_pos y, y]
                exact (zu_at _ _ _).trans w4
              · rw [if_neg y]
                refine (zu_ne _ (by omega) _).trans ?_
                rw [w3 _ (by omega)]
                show cB c (25 + i) = _
                rw [frc.2.1 _ (by omega), bB]
            have z3 : sI (uI (uI (uI x 8 (nI (N + 1))) 3 (nI (q3 + 1))) 4 0) 3 = nI (q3 + 1) := rfl
            have z4 : sI (uI (uI (uI x 8 (nI (N + 1))) 3 (nI (q3 + 1))) 4 0) 4 = 0 := rfl
            have z5 : sI (uI (uI (uI x 8 (nI (N + 1))) 3 (nI (q3 + 1))) 4 0) 5 = nI 0 := by rw [sI_ne _ (by decide), sI_ne _ (by decide), sI_ne _ (by decide), xi, w5 5 (by omega) (by omega)]; exact r8
            have z8 : sI (uI (uI (uI x 8 (nI (N + 1))) 3 (nI (q3 + 1))) 4 0) 8 = nI (N + 1) := rfl
            have z9 : sI (uI (uI (uI x 8 (nI (N + 1))) 3 (nI (q3 + 1))) 4 0) 9 = 0 := by rw [sI_ne _ (by decide), sI_ne _ (by decide), sI_ne _ (by decide), xi, w5 9 (by omega) (by omega)]; exact r9
            have z10 : sI (uI (uI (uI x 8 (nI (N + 1))) 3 (nI (q3 + 1))) 4 0) 10 = sI a 10 := by
              rw [sI_ne _ (by decide), sI_ne _ (by decide), sI_ne _ (by decide), xi, w5 10 (by omega) (by omega), sI_ne _ (by decide), (frc.2.2.2.2.2 r9).2]
              exact b10
            have WZ : Wf (uI (uI (uI x 8 (nI (N + 1))) 3 (nI (q3 + 1))) 4 0) := Wx
            generalize (uI (uI (uI x 8 (nI (N + 1))) 3 (nI (q3 + 1))) 4 0) = Z at *
            have gZ := ((g.trans ge).trans r1).trans gw
            have aZ : aeq a Z := aeq_trans bQ (aeq_trans frc.aeq aw)
            have tZ : cTx T L Z := ⟨aZ.2.2.1.trans ha.1, fun k hk => by rw [aZ.2.2.2]; exact ha.2 k hk⟩
            have hq4 := sk_le T (show q3 + 1 ≤ L by omega)
            have fm5 : mfo 0 m (vI m2 5 (nI (q3 + 1))) := fm4.trans (mfo_u e2.1 (by decide) _ _)
            cases v with
            | false =>
              rw [if_pos (show bi false = 0 from rfl), nI_1]
              obtain ⟨r, m9, y1, y2, y3⟩ := ih (L - sk T L (q3 + 1)) (by omega) (f' + 1) (q3 + 1) (N + 1) Z (vI m2 5 (nI (q3 + 1))) (by omega) (by omega) WZ e2.1 tZ (fm5.tx hm) (fun z => Bool.noConfusion z) (by omega) z3 z4 z5 z8 z9 rfl r11 r12
              refine ⟨r, m9, y1, fm5.mst.trans y2, ?_⟩
              rcases y3 with ⟨kd, pl, u1, u2, u3⟩ | ⟨u1, u2, n', a', u3, u4, u5, u6, u7, u8, u9, u10, u11, u12⟩
              · exact Or.inl ⟨kd, pl, u1, u2, Err.step gZ (p' := q3 + 1) (by omega) aZ u3⟩
              · exact Or.inr ⟨u1, u2.trans r13, _, a', gZ.trans u3, by omega, u5, aeq_trans aZ u6, u7, u8.trans z10, u9, u10, u11, u12⟩
            | true =>
              rw [if_neg (show ¬ bi true = 0 by decide), if_pos (by decide), e97, if_pos (vin8 t8), cl8 t8]
              obtain ⟨m7, y1, y2, y3, y4⟩ := m_copies (24 + (0 : Int32).toNatClampNeg) (T q - 97) (m := vI m2 5 (nI (q3 + 1))) e2.1
              have y3 : mB m7 = va_up (mB m2) (T q - 97) (mB m2 (24 + 0)) := y3
              rw [y1]
              simp only [Option.bind_some]
              have ms7 : mst true m m7 := fm5.mst.trans ⟨y2, fun r x1 _ => by rw [y3]; exact zu_ne _ (by omega) _, fun z => Bool.noConfusion z, fun k _ => mI_eq y4 k, mT_eq y4⟩
              rw [nI_1]
              obtain ⟨r, m9, y5, y6, y7⟩ := ih (L - sk T L (q3 + 1)) (by omega) (f' + 1) (q3 + 1) (N + 1) Z m7 (by omega) (by omega) WZ y2 tZ (ms7.tx hm) (fun hvt i hi => by
                rw [zN i hi, y3]
                by_cases y : i = T q - 97
                · rw [if_pos y, y, t6 hvt]
                  exact (zu_at _ _ _).symm
                · rw [if_neg y, hv hvt i hi]
                  refine ((zu_ne _ y _).trans ?_).symm
                  exact fm4.2.1 i (by omega)) (by omega) z3 z4 z5 z8 z9 (mI_eq y4 5) ((mI_eq y4 6).trans r11) ((mI_eq y4 7).trans r12)
              refine ⟨r, m9, y5, ms7.trans y6, ?_⟩
              rcases y7 with ⟨kd, pl, u1, u2, u3⟩ | ⟨u1, u2, n', a', u3, u4, u5, u6, u7, u8, u9, u10, u11, u12⟩
              · exact Or.inl ⟨kd, pl, u1, u2, Err.step gZ (p' := q3 + 1) (by omega) aZ u3⟩
              · exact Or.inr ⟨u1, u2.trans ((mI_eq y4 8).trans r13), _, a', gZ.trans u3, by omega, u5, aeq_trans aZ u6, u7, u8.trans z10, u9, u10, u11, fun _ => u12 rfl⟩
          · rw [if_neg c59]
            simp only [Option.bind_some]
            have nk : ¬ mI (vI (vI (vI m2 5 (nI q3)) 7 1) 8 (nI q3)) 7 = 0 := by show ¬ (1 : Int32) = 0; decide
            rw [if_neg nk, reads_err _ _ _ nk]
            refine ⟨_, _, rfl, ?_, Or.inl ⟨1, q3, rfl, rfl, ?_⟩⟩
            · exact (fm4.trans ((mfo_u e2.1 (by decide) _ _).trans ((mfo_u (m := vI m2 5 (nI q3)) e2.1 (by decide) _ _).trans (mfo_u (m := vI (vI m2 5 (nI q3)) 7 1) e2.1 (by decide) _ _)))).mst
            · by_cases q3l : q3 < L
              · have eq3 : ch T L q3 = T q3 := if_pos q3l
                rw [eq3] at t2 t3 t4 t5 c59 hch3
                have gw : Go 1 c (uI (uI (uI c 3 (nI q3)) 9 1) 10 (nI q3)) := by
                  refine Go.one h (frc.tx bT) r4 r3 r9 (by rw [hq3]; exact q3l) ?_
                  rw [hq3, rs_3 _ (show sI (uI c 3 (nI q3)) 4 = 3 from r7)]
                  unfold fX3_readBehindFactor
                  rw [if_neg (show ¬ nI (T q3) = 38 from ch_ne (d := 38) hch3 (by decide) t2), if_neg (show ¬ nI (T q3) = 124 from ch_ne (d := 124) hch3 (by decide) t3), if_neg (show ¬ nI (T q3) = 45 from ch_ne (d := 45) hch3 (by decide) t4), if_neg (show ¬ nI (T q3) = 94 from ch_ne (d := 94) hch3 (by decide) t5), if_neg (show ¬ nI (T q3) = 59 from ch_ne (d := 59) hch3 (by decide) c59)]
                  by_cases c41 : nI (T q3) = 41
                  · rw [if_pos c41, if_pos (show sI (uI c 3 (nI q3)) 5 ≤ 0 by rw [show sI (uI c 3 (nI q3)) 5 = nI 0 from r8]; decide)]
                    rfl
                  · rw [if_neg c41]
                    rfl
                have fc : cfi c (uI (uI (uI c 3 (nI q3)) 9 1) 10 (nI q3)) := cfi_fail r2.1 q3 1 q3
                exact Err.step (((g.trans ge).trans r1).trans gw) (p' := q3 + 1) (by omega) (aeq_trans bQ (aeq_trans frc.aeq fc.aeq)) (Err.fin fc.1 (by omega) (Or.inl rfl) (by omega) rfl rfl)
              · have eL : q3 = L := by omega
                rw [eL]
                exact Err.step ((g.trans ge).trans r1) (p' := p') (by omega) (aeq_trans bQ frc.aeq) (Err.eot r2.1 r4 r9 (by rw [r7]; decide) r4 r3 (by rw [hq3, eL]))
      · rw [if_neg c61]
        simp only [Option.bind_some]
        have nk : ¬ mI (vI (vI (vI (vI (vI m 5 (nI q)) 4 0) 5 (nI q2)) 7 1) 8 (nI q2)) 7 = 0 := by show ¬ (1 : Int32) = 0; decide
        rw [if_neg nk, if_neg nk, if_neg nk, reads_err _ _ _ nk]
        refine ⟨_, _, rfl, ?_, Or.inl ⟨1, q2, rfl, rfl, ?_⟩⟩
        · exact (fm1.trans ((mfo_u (m := vI m 5 (nI q)) V (by decide) _ _).trans ((mfo_u (m := vI (vI m 5 (nI q)) 4 0) V (by decide) _ _).trans ((mfo_u (m := vI (vI (vI m 5 (nI q)) 4 0) 5 (nI q2)) V (by decide) _ _).trans (mfo_u (m := vI (vI (vI (vI m 5 (nI q)) 4 0) 5 (nI q2)) 7 1) V (by decide) _ _))))).mst
        · by_cases q2l : q2 < L
          · have eq2 : ch T L q2 = T q2 := if_pos q2l
            rw [eq2] at c61 hch2
            have gw : Go 1 b (uI (uI (uI b 3 (nI q2)) 9 1) 10 (nI q2)) := by
              refine Go.one h bT l1 b3 b9 (by rw [hq2]; exact q2l) ?_
              rw [hq2, rs_1 _ (show sI (uI b 3 (nI q2)) 4 = 1 from b4)]
              unfold fX3_readEquals
              rw [if_neg (show ¬ nI (T q2) = 61 from ch_ne (d := 61) hch2 (by decide) c61)]
              rfl
            have fc : cfi b (uI (uI (uI b 3 (nI q2)) 9 1) 10 (nI q2)) := cfi_fail Wb q2 1 q2
            exact Err.step (g.trans gw) (p' := q2 + 1) (by omega) (aeq_trans bQ fc.aeq) (Err.fin fc.1 (by omega) (Or.inl rfl) (by omega) rfl rfl)
          · have eL : q2 = L := by omega
            rw [eL]
            exact Err.step g (p' := q + 1) (by omega) bQ (Err.eot Wb l1 b9 (by rw [b4]; decide) l1 b3 (by rw [hq2, eL]))
    · rw [decide_eq_false cn, if_neg (fun z => Bool.noConfusion z), m_fails 1 _ (show mI (vI (vI m 5 (nI q)) 4 0) 7 = 0 from g7)]
      simp only [Option.bind_some]
      have nk : ¬ mI (vI (vI (vI (vI m 5 (nI q)) 4 0) 7 1) 8 (mI (vI (vI m 5 (nI q)) 4 0) 5)) 7 = 0 := by show ¬ (1 : Int32) = 0; decide
      rw [if_neg nk, if_neg nk, if_neg nk, reads_err _ _ _ nk]
      refine ⟨_, _, rfl, ?_, Or.inl ⟨1, q, rfl, rfl, ?_⟩⟩
      · exact (fm1.trans ((mfo_u (m := vI m 5 (nI q)) V (by decide) _ _).trans ((mfo_u (m := vI (vI m 5 (nI q)) 4 0) V (by decide) _ _).trans (mfo_u (m := vI (vI (vI m 5 (nI q)) 4 0) 7 1) V (by decide) _ _)))).mst
      · have gw : Go 1 a (uI (uI (uI a 3 (nI q)) 9 1) 10 (nI q)) := by
          refine Go.one h ha hp h3 h9 (by rw [hq]; exact ql) ?_
          rw [hq, rs_0 _ (show sI (uI a 3 (nI q)) 4 = 0 from h4)]
          unfold fX3_readTarget
          rw [isName_in _ _ m, show fX8_in (nI (T q)) 97 104 m = bi (decide (97 ≤ T q ∧ T q ≤ 104)) from m_in (lo := 97) (hi := 104) hch (by decide) (by decide) _, if_bi, decide_eq_false cn]
          rfl
        have fc : cfi a (uI (uI (uI a 3 (nI q)) 9 1) 10 (nI q)) := cfi_fail W q 1 q
        exact Err.step gw (p' := q + 1) (by omega) fc.aeq (Err.fin fc.1 (by omega) (Or.inl rfl) (by omega) rfl rfl)
/-! ===== errorKind, errorPlace, run ===== -/
theorem p_beginAll (a : cS) (W : Wf a) : ∃ b, fX3_begin a = some b ∧ Wf b ∧ (∀ i, i < 8 → cB b (25 + i) = cB a i) ∧ (∀ n, n < 25 → cB b n = cB a n) ∧ sI b 3 = 0 ∧ sI b 4 = 0 ∧ sI b 5 = 0 ∧ sI b 8 = 0 ∧ sI b 9 = 0 ∧ sI b 10 = -1 ∧ sI b 0 = sI a 0 ∧ sI b 2 = sI a 2 ∧ sT b = sT a := by
  have key : ∀ (d fuel k : Nat) (s : cS), k + d = 8 → d < fuel → Wf s → s.2.2 = a.2.2 → (∀ i, i < k → cB s (25 + i) = cB a i) → (∀ n, n < 25 → cB s n = cB a n) → ∃ s', fX3_begin_L2 (fun s4 => some (uI (uI (uI (uI (uI (uI s4 3 0) 4 0) 5 0) 8 0) 9 0) 10 (-1))) fuel (nI k) s = some (uI (uI (uI (uI (uI (uI s' 3 0) 4 0) 5 0) 8 0) 9 0) 10 (-1)) ∧ Wf s' ∧ s'.2.2 = a.2.2 ∧ (∀ i, i < 8 → cB s' (25 + i) = cB a i) ∧ (∀ n, n < 25 → cB s' n = cB a n) := by
    intro d
    induction d with
    | zero =>
      intro fuel k s h hf Ws h2 h3 h4
      obtain ⟨l, rfl⟩ : ∃ l, fuel = l + 1 := ⟨fuel - 1, by omega⟩
      have : k = 8 := by omega
      subst this
      rw [fX3_begin_L2, if_pos (show (8 : Int32) ≤ nI 8 by decide)]
      exact ⟨s, rfl, Ws, h2, h3, h4⟩
    | succ d ih =>
      intro fuel k s h hf Ws h2 h3 h4
      obtain ⟨l, rfl⟩ : ∃ l, fuel = l + 1 := ⟨fuel - 1, by omega⟩
      have k8 : k < 8 := by omega
      obtain ⟨s1, e1, e2, e3⟩ := p_become (25 + k) k s
      rw [fX3_begin_L2, if_neg (ge_8 k8), if_neg (ge_8 k8), if_pos (vin8 k8), if_pos (vin8 k8), cl8 k8, e1, nI_1]
      simp only [Option.bind_some]
      refine ih l (k + 1) s1 (by omega) (by omega) (Wf_up Ws (Ws k) e2) (e3.trans h2) (fun i hi => ?_) (fun n hn => ?_)
      · rw [e2]
        by_cases z : i = k
        · rw [z]
          exact (zu_at _ _ _).trans (h4 k (by omega))
        · exact (zu_ne _ (by omega) _).trans (h3 i (by omega))
      · rw [e2]
        exact (zu_ne _ (by omega) _).trans (h4 n hn)
  obtain ⟨s', r1, r2, r3, r4, r5⟩ := key 8 1100 0 a rfl (by decide) W rfl (fun i hi => by omega) (fun _ _ => rfl)
  refine ⟨_, r1, r2, r4, r5, rfl, rfl, rfl, rfl, rfl, rfl, ?_, ?_, (sT_eq (s' := s') r3)⟩
  · exact sI_eq r3 0
  · exact sI_eq r3 2
theorem p_tellAll (a : cS) (W : Wf a) : ∃ b, fX3_tellSets a = some b ∧ Wf b ∧ b.2.2 = a.2.2 ∧ (∀ i, i < 8 → cB b i = cB a (25 + i)) ∧ (∀ n, 8 ≤ n → cB b n = cB a n) := by
  have key : ∀ (d fuel k : Nat) (s : cS), k + d = 8 → d < fuel → Wf s → s.2.2 = a.2.2 → (∀ i, i < k → cB s i = cB a (25 + i)) → (∀ n, 8 ≤ n → cB s n = cB a n) → ∃ s', fX3_tellSets_L2 fuel (nI k) s = some s' ∧ Wf s' ∧ s'.2.2 = a.2.2 ∧ (∀ i, i < 8 → cB s' i = cB a (25 + i)) ∧ (∀ n, 8 ≤ n → cB s' n = cB a n) := by
    intro d
    induction d with
    | zero =>
      intro fuel k s h hf Ws h2 h3 h4
      obtain ⟨l, rfl⟩ : ∃ l, fuel = l + 1 := ⟨fuel - 1, by omega⟩
      have : k = 8 := by omega
      subst this
      rw [fX3_tellSets_L2, if_pos (show (8 : Int32) ≤ nI 8 by decide)]
      exact ⟨s, rfl, Ws, h2, h3, h4⟩
    | succ d ih =>
      intro fuel k s h hf Ws h2 h3 h4
      obtain ⟨l, rfl⟩ : ∃ l, fuel = l + 1 := ⟨fuel - 1, by omega⟩
      have k8 : k < 8 := by omega
      obtain ⟨s1, e1, e2, e3⟩ := p_become k (25 + k) s
      rw [fX3_tellSets_L2, if_neg (ge_8 k8), if_neg (ge_8 k8), if_pos (vin8 k8), if_pos (vin8 k8), cl8 k8, e1, nI_1]
      simp only [Option.bind_some]
      refine ih l (k + 1) s1 (by omega) (by omega) (Wf_up Ws (Ws _) e2) (e3.trans h2) (fun i hi => ?_) (fun n hn => ?_)
      · rw [e2]
        by_cases z : i = k
        · rw [z]
          exact (zu_at _ _ _).trans (h4 _ (by omega))
        · exact (zu_ne _ (by omega) _).trans (h3 i (by omega))
      · rw [e2]
        exact (zu_ne _ (by omega) _).trans (h4 n hn)
  exact key 8 1100 0 a rfl (by decide) W rfl (fun i hi => by omega) (fun _ _ => rfl)
theorem mst_meq {m m' : mS} (h : mst false m m') : meq m m' := ⟨fun r hr h8 => by
  by_cases z : r < 8
  · exact h.2.2.1 rfl r z
  · exact h.2.1 r (by omega) (by omega), h.2.2.2.1 1 (by omega), h.2.2.2.1 3 (by omega), h.2.2.2.2⟩
theorem read_both (v : Bool) {a : cS} {m : mS} (hR : Rel a m) : ∃ a2 r m2, fX3_read a = some a2 ∧ fX8_reads (bi v) m = some (r, m2) ∧ Wf a2 ∧ aeq a a2 ∧ mst v m m2 ∧ sI a2 9 = mI m2 7 ∧ sI a2 10 = mI m2 8 ∧ (mI m2 7 = 0 → sI a2 8 = r ∧ (v = true → ∀ i, i < 8 → cB a2 (25 + i) = mB m2 i)) := by
  obtain ⟨W, V, hs, hf, ⟨L, hL, t1, t2, t3⟩⟩ := hR
  have hT : TX (fun k => (sT a k).toNatClampNeg) L := ⟨hL, fun k hk => by
    obtain ⟨b, b0, b1, b2, _⟩ := t3 k hk
    show 0 < (sT a k).toNatClampNeg ∧ (sT a k).toNatClampNeg < 256
    rw [b2, nI_clamp (by omega)]
    exact ⟨b0, b1⟩⟩
  have hc : cTx (fun k => (sT a k).toNatClampNeg) L a := ⟨t1, fun k hk => by
    obtain ⟨b, b0, b1, b2, _⟩ := t3 k hk
    show sT a k = nI (sT a k).toNatClampNeg
    rw [b2, nI_clamp (by omega)]⟩
  have hm : mTx (fun k => (sT a k).toNatClampNeg) L m := ⟨t2, fun k hk => by
    obtain ⟨b, b0, b1, b2, b3⟩ := t3 k hk
    show mT m k = nI (sT a k).toNatClampNeg
    rw [b2, b3, nI_clamp (by omega)]⟩
  generalize (fun k => (sT a k).toNatClampNeg) = T at *
  obtain ⟨b, c1, c2, c3, c4, c5, c6, c7, c8, c9, c10, c11, c12, c13⟩ := p_beginAll a W
  have hb : cTx T L b := ⟨c12.trans hc.1, fun k hk => by rw [c13]; exact hc.2 k hk⟩
  have ab : aeq a b := ⟨fun n hn => c4 n (by omega), c11, c12, c13⟩
  unfold fX8_reads
  have sl := sk_le T (Nat.zero_le L)
  obtain ⟨r, m2, e1, e2, e3⟩ := stm_L hT v (L - sk T L 0) 1100 0 0 b (vI (vI (vI (vI m 7 0) 8 (-1)) 5 0) 6 0) (by omega) (by omega) c2 V hb ⟨hm.1, hm.2⟩ (fun _ i hi => (c3 i hi).trans (hs i hi)) (Nat.zero_le _) c5 c6 c7 c8 c9 rfl rfl rfl
  have ms0 : mst v m (vI (vI (vI (vI m 7 0) 8 (-1)) 5 0) 6 0) := ⟨V, fun _ _ _ => rfl, fun _ _ _ => rfl, fun k hk => by rw [b_mI_vI, if_neg (by omega), b_mI_vI, if_neg (by omega), b_mI_vI, if_neg (by omega), b_mI_vI, if_neg (by omega)], rfl⟩
  have KK : ∀ (fuel t : Nat) (s : cS), t ≤ 201 → sI s 9 ≠ 0 → fX3_read_L7 (fun s6 => if (sI s6 9) = 0 then (if (sI s6 4) = 0 then (some (s6)) else ((fX3_refuseByte s6).bind (fun s7 => some (s7)))) else (some (s6))) (fun s8 => if (sI s8 9) = 0 then (if (sI s8 4) = 0 then (some (s8)) else ((fX3_refuseByte s8).bind (fun s9 => some (s9)))) else (some (s8))) (fuel + 1) (nI t) s = some s := fun fuel t s ht h9 => by
    rw [fX3_read_L7]
    simp only [if_neg h9]
    split <;> rfl
  have KE : ∀ (fuel t pe : Nat) (s : cS), t ≤ 200 → cTx T L s → sI s 9 = 0 → pe ≤ L → sI s 3 = nI pe → sk T L pe = L → fX3_read_L7 (fun s6 => if (sI s6 9) = 0 then (if (sI s6 4) = 0 then (some (s6)) else ((fX3_refuseByte s6).bind (fun s7 => some (s7)))) else (some (s6))) (fun s8 => if (sI s8 9) = 0 then (if (sI s8 4) = 0 then (some (s8)) else ((fX3_refuseByte s8).bind (fun s9 => some (s9)))) else (some (s8))) (fuel + 1) (nI t) s = if sI s 4 = 0 then some (uI s 3 (nI L)) else some (uI (uI (uI s 3 (nI L)) 9 1) 10 (nI L)) := fun fuel t pe s ht hs9 h9 hpe h3 hsk => by
    rw [fX3_read_L7, if_neg (show ¬ (200 : Int32) < nI t from nI_nlt (a := 200) ht (by decide)), if_pos h9, p_blanks hT hs9 hpe h3, hsk]
    simp only [Option.bind_some]
    rw [show sI (uI s 3 (nI L)) 3 = nI L from rfl, show fX4_length (uI s 3 (nI L)) = nI L from hs9.1, if_neg (nI_nlt (Nat.le_refl _) (by omega)), if_pos (show sI (uI s 3 (nI L)) 9 = 0 from h9)]
    rfl
  have rd : fX3_read a = fX3_read_L7 (fun s6 => if (sI s6 9) = 0 then (if (sI s6 4) = 0 then (some (s6)) else ((fX3_refuseByte s6).bind (fun s7 => some (s7)))) else (some (s6))) (fun s8 => if (sI s8 9) = 0 then (if (sI s8 4) = 0 then (some (s8)) else ((fX3_refuseByte s8).bind (fun s9 => some (s9)))) else (some (s8))) 1100 0 b := by
    unfold fX3_read
    rw [c1]
    rfl
  rcases e3 with ⟨kd, pl, r1, r2, ⟨n, b', g1, g2, g3, g4, g5, g6, g7⟩⟩ | ⟨r1, r2, n, b', g1, g2, g3, g4, g5, g6, g7, ⟨pe, g8, g9, g10⟩, g11, g12⟩
  · have go := g1 (fun s6 => if (sI s6 9) = 0 then (if (sI s6 4) = 0 then (some (s6)) else ((fX3_refuseByte s6).bind (fun s7 => some (s7)))) else (some (s6))) (fun s8 => if (sI s8 9) = 0 then (if (sI s8 4) = 0 then (some (s8)) else ((fX3_refuseByte s8).bind (fun s9 => some (s9)))) else (some (s8))) ((1099 - n) + 1) 0 (by omega)
    rw [show (1099 - n) + 1 + n = 1100 from by omega, nI_0, Nat.zero_add] at go
    rcases g7 with ⟨g7, g8⟩ | ⟨g7, g8, ⟨pe, g9, g10, g11⟩, hkd, hpl⟩
    · have nk : sI b' 9 ≠ 0 := by rw [g7]; exact kd_ne g5
      refine ⟨b', r, m2, rd.trans (go.trans (KK _ _ _ (by omega) nk)), e1, g3, aeq_trans ab g4, ms0.trans e2, g7.trans r1.symm, g8.trans r2.symm, fun z => ?_⟩
      rw [r1] at z
      exact absurd z (kd_ne g5)
    · have tb : cTx T L b' := ⟨g4.2.2.1.trans hb.1, fun k hk => by rw [g4.2.2.2]; exact hb.2 k hk⟩
      refine ⟨_, r, m2, rd.trans (go.trans ((KE _ _ pe _ (by omega) tb g7 g9 g10 g11).trans (if_neg g8))), e1, g3, aeq_trans ab (aeq_trans g4 ⟨fun _ _ => rfl, rfl, rfl, rfl⟩), ms0.trans e2, by rw [r1, hkd]; rfl, by rw [r2, hpl]; rfl, fun z => ?_⟩
      rw [r1, hkd] at z
      exact absurd z (kd_ne (Or.inl rfl))
  · have go := g1 (fun s6 => if (sI s6 9) = 0 then (if (sI s6 4) = 0 then (some (s6)) else ((fX3_refuseByte s6).bind (fun s7 => some (s7)))) else (some (s6))) (fun s8 => if (sI s8 9) = 0 then (if (sI s8 4) = 0 then (some (s8)) else ((fX3_refuseByte s8).bind (fun s9 => some (s9)))) else (some (s8))) ((1099 - n) + 1) 0 (by omega)
    rw [show (1099 - n) + 1 + n = 1100 from by omega, nI_0, Nat.zero_add] at go
    have tb : cTx T L b' := ⟨g4.2.2.1.trans hb.1, fun k hk => by rw [g4.2.2.2]; exact hb.2 k hk⟩
    refine ⟨_, r, m2, rd.trans (go.trans ((KE _ _ pe _ (by omega) tb g5 g8 g9 g10).trans (if_pos g7))), e1, g3, aeq_trans ab (aeq_trans g4 ⟨fun _ _ => rfl, rfl, rfl, rfl⟩), ms0.trans e2, ?_, ?_, fun _ => ⟨?_, g12⟩⟩
    · rw [sI_ne _ (by decide), g5, r1]
    · rw [sI_ne _ (by decide), g6, c10, r2]
      rfl
    · rw [sI_ne _ (by decide)]
      exact g11
theorem g_errorKind {a : cS} {m : mS} (h : Rel a m) : Meet0 (fX7_errorKind a) (fX8_errorKind m) := by
  obtain ⟨a2, r, m2, e1, e2, e3, e4, e5, e6, e7, e8⟩ := read_both false (Rel_v0 h 0)
  refine ⟨mI m2 7, a2, m2, ?_, ?_, Rel_keep (Rel_v0 h 0) e4 (mst_meq e5) e3 e5.1⟩
  · unfold fX7_errorKind fX3_kind
    rw [e1]
    simp only [Option.bind_some, e6]
  · unfold fX8_errorKind
    rw [show fX8_reads 0 (vI m 0 0) = some (r, m2) from e2]
    rfl
theorem g_errorPlace {a : cS} {m : mS} (h : Rel a m) : Meet0 (fX7_errorPlace a) (fX8_errorPlace m) := by
  obtain ⟨a2, r, m2, e1, e2, e3, e4, e5, e6, e7, e8⟩ := read_both false (Rel_v0 h 0)
  refine ⟨mI m2 8, a2, m2, ?_, ?_, Rel_keep (Rel_v0 h 0) e4 (mst_meq e5) e3 e5.1⟩
  · unfold fX7_errorPlace fX3_place
    rw [e1]
    simp only [Option.bind_some, e7]
  · unfold fX8_errorPlace
    rw [show fX8_reads 0 (vI m 0 0) = some (r, m2) from e2]
    rfl
theorem g_run {a : cS} {m : mS} {ee : Nat} (h : Rel a m) : Meets 4 ee (fX7_run a) (fX8_run m) := by
  obtain ⟨a2, r, m2, e1, e2, e3, e4, e5, e6, e7, e8⟩ := read_both false h
  have e2 : fX8_reads 0 m = some (r, m2) := e2
  have hR2 : Rel a2 m2 := Rel_keep h e4 (mst_meq e5) e3 e5.1
  unfold fX7_run fX8_run fX3_kind
  rw [e1, e2]
  simp only [Option.bind_some, e6]
  by_cases c : mI m2 7 = 0
  · rw [if_pos c, if_pos c]
    have hR3 : Rel a (vI m2 0 0) := Rel_keep h (aeq_refl a) (meq_trans (mst_meq e5) (meq_v0 m2 0)) h.1 e5.1
    obtain ⟨a3, r3, m3, f1, f2, f3, f4, f5, f6, f7, f8⟩ := read_both true hR3
    have ea : a3 = a2 := Option.some.inj (f1.symm.trans e1)
    subst ea
    have f2 : fX8_reads 1 (vI m2 0 0) = some (r3, m3) := f2
    obtain ⟨f9, f10⟩ := f8 (by rw [← f6, e6]; exact c)
    obtain ⟨b, g1, g2, g3, g4, g5⟩ := p_tellAll a3 f3
    rw [g1]
    simp only [Option.bind_some, pass_0, one_0, f2]
    unfold fX3_statements
    rw [sI_eq g3, f9]
    obtain ⟨W, V, hs, ⟨cc, hc, i1, i2, i3⟩, ⟨L, hL, t1, t2, t3⟩⟩ := hR3
    refine Meets.ok rfl rfl (f5.2.2.2.1 0 (by omega)) ⟨g2, f5.1, fun i hi => (g4 i hi).trans (f10 rfl i hi), ⟨cc, hc, ?_, (f5.2.2.2.1 1 (by omega)).trans i2, fun j hj => ?_⟩, ⟨L, hL, ?_, (f5.2.2.2.1 3 (by omega)).trans t2, fun k hk => ?_⟩⟩
    · rw [sI_eq g3, f4.2.1]
      exact i1
    · rw [g5 _ (by omega), f4.1 _ (by omega), f5.2.1 _ (by omega) (by omega)]
      exact i3 j hj
    · rw [sI_eq g3, f4.2.2.1]
      exact t1
    · rw [sT_eq g3, f4.2.2.2, f5.2.2.2.2]
      exact t3 k hk
  · rw [if_neg c, if_neg c]
    refine Meets.e1 (r := 0) hR2 rfl ?_
    simp only [pass_1, Option.bind_some, if_true]
/-! meanSize, nothingShare -/
def szs (f : Nat → BS) : Nat → Nat
  | 0 => 0
  | k + 1 => szs f k + sz (f k)
theorem szs_le (f : Nat → BS) : ∀ k, szs f k ≤ 102 * k
  | 0 => Nat.le_refl _
  | k + 1 => by
    have := szs_le f k
    have := sz_le (f k)
    rw [szs]
    omega
theorem szs_cong {f g : Nat → BS} : ∀ {k : Nat}, (∀ i, i < k → f i = g i) → szs f k = szs g k
  | 0, _ => rfl
  | k + 1, h => by rw [szs, szs, h k (by omega), szs_cong (fun i hi => h i (by omega))]
theorem fin_mean : ∀ S, S < 817 → fn64 (FP.ddiv (FP.i2d (nI S)) 4620693217682128896) = true := by decide +kernel
theorem p_mean_L {a : cS} (W : Wf a) : ∀ (d fuel k : Nat), k + d = 8 → d < fuel → fX7_meanSize_L4 fuel (nI (szs (cB a) k)) (nI k) a = some (FP.ddiv (FP.i2d (nI (szs (cB a) 8))) 4620693217682128896, a) := by
  intro d
  induction d with
  | zero =>
    intro fuel k h hf
    obtain ⟨l, rfl⟩ : ∃ l, fuel = l + 1 := ⟨fuel - 1, by omega⟩
    have : k = 8 := by omega
    subst this
    have := szs_le (cB a) 8
    rw [fX7_meanSize_L4, if_pos (show (8 : Int32) ≤ nI 8 by decide), if_pos (fin_mean _ (by omega))]
  | succ d ih =>
    intro fuel k h hf
    obtain ⟨l, rfl⟩ : ∃ l, fuel = l + 1 := ⟨fuel - 1, by omega⟩
    have k8 : k < 8 := by omega
    rw [fX7_meanSize_L4, if_neg (ge_8 k8), if_pos (vin8 k8), cl8 k8, p_count k a W, nI_add, nI_1]
    exact ih l (k + 1) (by omega) (by omega)
theorem m_mean_L (m : mS) : ∀ (d fuel k : Nat), k + d = 8 → d < fuel → fX8_meanSize_L9 fuel (nI (szs (mB m) k)) (nI k) m = some (FP.ddiv (FP.i2d (nI (szs (mB m) 8))) 4620693217682128896, m) := by
  intro d
  induction d with
  | zero =>
    intro fuel k h hf
    obtain ⟨l, rfl⟩ : ∃ l, fuel = l + 1 := ⟨fuel - 1, by omega⟩
    have : k = 8 := by omega
    subst this
    have := szs_le (mB m) 8
    rw [fX8_meanSize_L9, if_pos (show (8 : Int32) ≤ nI 8 by decide), if_pos (fin_mean _ (by omega))]
  | succ d ih =>
    intro fuel k h hf
    obtain ⟨l, rfl⟩ : ∃ l, fuel = l + 1 := ⟨fuel - 1, by omega⟩
    have k8 : k < 8 := by omega
    rw [fX8_meanSize_L9, if_neg (ge_8 k8), if_pos (vin8 k8), cl8 k8, m_sizeOf]
    simp only [Option.bind_some, nI_add, nI_1]
    exact ih l (k + 1) (by omega) (by omega)
theorem g_meanSize {a : cS} {m : mS} (h : Rel a m) : ∃ r a' m', fX7_meanSize a = some (r, a') ∧ fX8_meanSize m = some (r, m') ∧ Rel a' m' := by
  refine ⟨_, a, vI m 0 0, p_mean_L h.1 8 1100 0 rfl (by decide), ?_, Rel_v0 h 0⟩
  have := m_mean_L (vI m 0 0) 8 1100 0 rfl (by decide)
  rw [szs_cong (f := mB (vI m 0 0)) (g := cB a) (k := 8) (fun i hi => (h.2.2.1 i hi).symm)] at this
  exact this
theorem fin_share : ∀ S, S < 9 → fn32 (FP.fdiv (FP.i2f (nI S)) 1090519040) = true ∧ fn64 (FP.f2d (FP.fdiv (FP.i2f (nI S)) 1090519040)) = true := by decide +kernel
theorem g_nothingShare {a : cS} {m : mS} (h : Rel a m) : ∃ r a' m', fX7_nothingShare a = some (r, a') ∧ fX8_nothingShare m = some (r, m') ∧ fn64 (FP.f2d r) = true ∧ Rel a' m' := by
  have vl := vt_le (cB a) 0
  have fs := fin_share (vt (cB a) 0) (by omega)
  refine ⟨FP.fdiv (FP.i2f (nI (vt (cB a) 0))) 1090519040, a, vI m 0 0, ?_, ?_, fs.2, Rel_v0 h 0⟩
  · unfold fX7_nothingShare
    rw [show fX7_votesFor 0 a = _ from p_votes a (k := 0) (by decide)]
    simp only [Option.bind_some]
    rw [if_pos fs.1]
  · unfold fX8_nothingShare
    have e : vt (mB (vI m 0 0)) 0 = vt (cB a) 0 := vt_eq h 0
    rw [show fX8_votes 0 (vI m 0 0) = _ from m_votes (vI m 0 0) (k := 0) (by decide), e]
    simp only [Option.bind_some]
    rw [if_pos fs.1]
