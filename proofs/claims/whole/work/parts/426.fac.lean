/-! ===== reading: a factor ===== -/
theorem facOK {T : Nat → Nat} {L : Nat} (h : TX T L) (v : Bool) {o : Nat} (S : mS → Option mS) (HS : o < 8 → SumOK T L v (o + 1) S) : FacOK T L v o (fX8_factor S) := by
  have hL := h.1
  intro a m p hh ⟨W, V, ha, hm, hv, hp, h3, h4, h5, ho, h9, g5, g4, g6, g7⟩ hle hb
  obtain ⟨k1, k2⟩ := sk_le T hp
  have hmb := m_blanks h hm hp g5
  have hsi := sk_sk T hp
  have hch := ch_lt h (sk T L p)
  generalize hq : sk T L p = q at *
  unfold fX8_factor
  rw [hmb]
  simp only [Option.bind_some]
  have hm1 : mTx T L (vI m 5 (nI q)) := ⟨hm.1, hm.2⟩
  have m1h : mI (vI m 5 (nI q)) 4 = nI hh := g4
  have m1o : mI (vI m 5 (nI q)) 6 = nI o := g6
  have m17 : mI (vI m 5 (nI q)) 7 = 0 := g7
  have fm1 : mfo hh m (vI m 5 (nI q)) := mfo_u V (by decide) _ _
  have fa1 : cfi a (uI a 3 (nI q)) := cfi_u W (Or.inl rfl) _
  have v40 := vin40 (show hh < 40 by omega)
  have cl4 := cl40 (show hh < 40 by omega)
  rw [show fX8_in (nI (ch T L q)) 97 104 (vI m 5 (nI q)) = bi (decide (97 ≤ ch T L q ∧ ch T L q ≤ 104)) from m_in (lo := 97) (hi := 104) hch (by decide) (by decide) _, if_bi]
  by_cases cn : 97 ≤ ch T L q ∧ ch T L q ≤ 104
  · -- a name
    have ql : q < L := by
      apply Classical.byContradiction
      intro z0
      rw [(ch_0 h q).mpr (by omega)] at cn
      omega
    have eq : ch T L q = T q := if_pos ql
    rw [eq] at cn hch ⊢
    have e97 : nI (T q) - 97 = nI (T q - 97) := pk_sub (b := 97) cn.1
    have t8 : T q - 97 < 8 := by omega
    rw [decide_eq_true cn, if_pos rfl, e97, if_pos (vin8 t8), m1h, if_pos v40, cl8 t8, cl4]
    obtain ⟨m2, e1, e2, e3, e4⟩ := m_copies (T q - 97) (24 + hh) (m := vI m 5 (nI q)) V
    rw [e1]
    simp only [Option.bind_some]
    have i2 : ∀ k, mI m2 k = mI (vI m 5 (nI q)) k := fun k => mI_eq e4 k
    obtain ⟨a1, u1, u2, u3, u4, u5, u6, u7⟩ := p_use (x := 25 + (T q - 97)) (o := o) (s := uI a 3 (nI q)) W h5 ho (by rw [sI_ne _ (by omega)]; exact hb) (by omega)
    rw [sI_ne _ (show 12 + 2 * o ≠ 3 by omega)] at u4
    have a13 : sI a1 3 = nI q := by rw [u5 3 (by omega)]; rfl
    have g : Go 1 a (uI (uI a1 3 (nI (q + 1))) 4 3) := by
      refine Go.one h ha hp h3 h9 (by rw [hq]; exact ql) ?_
      rw [hq, rs_2 _ (show sI (uI a 3 (nI q)) 4 = 2 from h4)]
      unfold fX3_readFactor
      rw [isName_in _ _ m, show fX8_in (nI (T q)) 97 104 m = bi (decide (97 ≤ T q ∧ T q ≤ 104)) from m_in (lo := 97) (hi := 104) hch (by decide) (by decide) _, if_bi, decide_eq_true cn, if_pos rfl, e97, if_pos (vin8 t8), cl8 t8, u1]
      simp only [Option.bind_some, c_pass 3 a13]
    have e5 : mI (vI m2 4 (mI m2 4 + 1)) 5 + 1 = nI (q + 1) := by
      rw [b_mI_vI, if_neg (by decide), i2, b_mI_vI, if_pos rfl, nI_1]
    have e44 : mI m2 4 + 1 = nI (hh + 1) := by rw [i2, m1h, nI_1]
    rw [e5, e44]
    have fr : cfo o a (uI (uI a1 3 (nI (q + 1))) 4 3) := cfo.of u2 (by omega) (fun n hn hn2 _ => u3 n (by omega)) (fun k z3 z4 z5 z7 hk => by
      rw [sI_ne _ z4, sI_ne _ z3, u5 k (by omega), sI_ne _ z3]) u7
    refine ⟨_, rfl, ?_, Or.inr ⟨1, _, q + 1, g, fr, rfl, by omega, by omega, by omega, rfl, ?_, ?_, ?_, ?_, ?_, ?_, ?_, ?_, ?_, ?_, ?_⟩⟩
    · refine fm1.trans (mfo.trans (b := m2) ⟨e2, fun r hr => by rw [e3]; exact zu_ne _ (by omega) _, fun k _ => i2 k, mT_eq e4⟩ ?_)
      exact (mfo_u (m := m2) e2 (by decide) _ _).trans (mfo_u (m := vI m2 4 (nI (hh + 1))) e2 (by decide) _ _)
    · rw [sI_ne _ (by decide), sI_ne _ (by decide), u5 5 (by omega)]; exact h5
    · rw [sI_ne _ (by decide), sI_ne _ (by decide), u5 9 (by omega)]; exact h9
    · rfl
    · rw [b_mI_vI, if_neg (by decide), b_mI_vI, if_neg (by decide), i2]; exact g6
    · rw [b_mI_vI, if_neg (by decide), b_mI_vI, if_neg (by decide), i2]; exact g7
    · rw [b_mI_vI, if_neg (by decide), b_mI_vI, if_neg (by decide), i2]; rfl
    · rw [sI_ne _ (by omega), sI_ne _ (by omega)]; exact u6
    · rfl
    · show cB a1 (34 + o) = _
      rw [u3 _ (by omega)]; rfl
    · rw [sI_ne _ (by omega), sI_ne _ (by omega), u5 _ (by omega), sI_ne _ (by omega)]
    · intro hvt
      show cB a1 (43 + o) = _
      have en : cB a (25 + (T q - 97)) = mB m2 (24 + hh) := by
        rw [e3, hv hvt _ t8]
        exact (zu_at _ _ _).symm
      rw [u4]
      show (if sI a (12 + 2 * o) = 0 then cB a (25 + (T q - 97)) else jn 1 (cB a (43 + o)) (cB a (25 + (T q - 97)))) = _
      rw [en]
      rfl
  · rw [decide_eq_false cn, if_neg (fun z => Bool.noConfusion z)]
    have nNm : q < L → fX3_isName (nI (T q)) (uI a 3 (nI q)) = 0 := fun ql => by
      have eq : ch T L q = T q := if_pos ql
      rw [eq] at cn hch
      rw [isName_in _ _ m, show fX8_in (nI (T q)) 97 104 m = bi (decide (97 ≤ T q ∧ T q ≤ 104)) from m_in (lo := 97) (hi := 104) hch (by decide) (by decide) _, decide_eq_false cn]
      rfl
    by_cases c123 : ch T L q = 123
    · -- braces
      have ql : q < L := by
        apply Classical.byContradiction
        intro z0
        rw [(ch_0 h q).mpr (by omega)] at c123
        exact absurd c123 (by decide)
      have eq : T q = 123 := by rw [← c123]; exact (if_pos ql).symm
      rw [if_pos (show nI (ch T L q) = 123 by rw [c123]; rfl), m1h, if_pos v40, cl4]
      obtain ⟨b, b1, b2, b3⟩ := p_empty 33 (uI a 3 (nI q))
      have ib : ∀ k, sI b k = sI (uI a 3 (nI q)) k := fun k => sI_eq b3 k
      have Wb : Wf b := Wf_up (a := uI a 3 (nI q)) W wf_0 b2
      have bb3 : sI b 3 = nI q := by rw [ib]; rfl
      have g : Go 1 a (uI (uI b 3 (nI (q + 1))) 4 4) := by
        refine Go.one h ha hp h3 h9 (by rw [hq]; exact ql) ?_
        rw [hq, rs_2 _ (show sI (uI a 3 (nI q)) 4 = 2 from h4)]
        unfold fX3_readFactor
        rw [nNm ql, if_pos rfl, if_pos (show nI (T q) = 123 by rw [eq]; rfl), b1]
        simp only [Option.bind_some, c_pass 4 bb3]
      have fb : cfi a (uI (uI b 3 (nI (q + 1))) 4 4) := fa1.trans (cfi.trans (b := b) ⟨Wb, fun n hn => by rw [b2]; exact zu_ne _ hn _, fun k _ _ _ _ _ => ib k, sT_eq b3, fun z => ⟨(ib 9).symm.trans z, ib 10⟩⟩ ((cfi_u (a := b) Wb (Or.inl rfl) _).trans (cfi_u (a := uI b 3 (nI (q + 1))) Wb (Or.inr (Or.inl rfl)) _)))
      obtain ⟨m2, e1, e2, e3⟩ := brace_both h (q := q) (z := 24 + hh) (a := uI (uI b 3 (nI (q + 1))) 4 4) (m := vI m 5 (nI q)) fb.1 V (fb.tx ha) hm1 ql eq rfl rfl (by rw [sI_ne _ (by decide), sI_ne _ (by decide), ib]; exact h9) (by show cB b 33 = _; rw [b2]; exact zu_at _ _ _) rfl m17
      rw [e1]
      simp only [Option.bind_some]
      have i2 : ∀ k, k ≠ 5 → k ≠ 7 → k ≠ 8 → mI m2 k = mI m k := fun k x y z => (e2.2.2.1 k x y z).trans (if_neg x)
      have fm2 : mfo hh m m2 := fm1.trans (e2.mfo (by omega))
      rw [show mI m2 4 + 1 = nI (hh + 1) from by rw [i2 4 (by decide) (by decide) (by decide), g4, nI_1]]
      refine ⟨_, rfl, fm2.trans (mfo_u e2.1 (by decide) _ _), ?_⟩
      rcases e3 with ⟨kd, pl, r1, r2, rx, r3⟩ | ⟨n, c, q', pc', r1, r2, r3, r4, r5, r6, r7, r8, r9, r10, r11, r12, r13, r14⟩
      · exact Or.inl ⟨kd, pl, r1, r2, rx, Err.step g (p' := q + 1) (by omega) fb.aeq r3⟩
      · right
        have fc := fb.trans r2
        have c5 : sI c 5 = nI o := (fc.2.2.1 5 (by decide) (by decide) (by decide) (by decide) (by decide)).trans h5
        have ic : ∀ k, 11 ≤ k → sI c k = sI a k := fun k hk => fc.2.2.1 k (by omega) (by omega) (by omega) (by omega) (by omega)
        obtain ⟨d, u1, u2, u3, u4, u5, u6, u7⟩ := p_use (x := 33) (o := o) (s := uI c 3 (nI q')) fc.1 c5 ho (by rw [sI_ne _ (by omega), ic _ (by omega)]; exact hb) (by omega)
        rw [sI_ne _ (show 12 + 2 * o ≠ 3 by omega), ic _ (by omega)] at u4
        have d3 : sI d 3 = nI q' := by rw [u5 3 (by omega)]; rfl
        have g2 : Go 1 c (uI (uI d 3 (nI (q' + 1))) 4 3) := by
          refine Go.one h (fc.tx ha) r6 r5 r3 (by rw [r7]; exact r8) ?_
          rw [r7, r9, show nI 125 = (125 : Int32) from rfl, rs_brace (a := uI c 3 (nI q')) r4, u1]
          simp only [Option.bind_some, c_pass 3 d3]
        have q'ge : pc' ≤ q' := by rw [← r7]; exact (sk_le T r6).1
        have fr : cfo o a (uI (uI d 3 (nI (q' + 1))) 4 3) := (fc.cfo (by omega)).trans (cfo.of u2 (by omega) (fun n hn hn2 _ => u3 n (by omega)) (fun k z3 z4 z5 z7 hk => by
          rw [sI_ne _ z4, sI_ne _ z3, u5 k (by omega), sI_ne _ z3]) u7)
        refine ⟨1 + n + 1, _, q' + 1, (g.trans r1).trans g2, fr, rfl, by omega, by omega, by omega, rfl, ?_, ?_, rfl, ?_, ?_, ?_, ?_, ?_, ?_, ?_, ?_⟩
        · rw [sI_ne _ (by decide), sI_ne _ (by decide), u5 5 (by omega)]; exact c5
        · rw [sI_ne _ (by decide), sI_ne _ (by decide), u5 9 (by omega)]; exact r3
        · rw [b_mI_vI, if_neg (by decide), i2 6 (by decide) (by decide) (by decide)]; exact g6
        · exact r13
        · rw [b_mI_vI, if_neg (by decide), r14]; rfl
        · rw [sI_ne _ (by omega), sI_ne _ (by omega)]; exact u6
        · exact r10
        · show cB d (34 + o) = _
          rw [u3 _ (by omega)]
          exact fc.2.1 _ (by omega)
        · rw [sI_ne _ (by omega), sI_ne _ (by omega), u5 _ (by omega), sI_ne _ (by omega), ic _ (by omega)]
        · intro _
          show cB d (43 + o) = _
          rw [u4]
          show (if sI a (12 + 2 * o) = 0 then cB c 33 else jn 1 (cB c (43 + o)) (cB c 33)) = _
          rw [r12, fc.2.1 (43 + o) (by omega)]
          rfl
    · rw [if_neg (show ¬ nI (ch T L q) = 123 from ch_ne (d := 123) hch (by decide) c123)]
      by_cases c40 : ch T L q = 40
      · -- an opening bracket
        have ql : q < L := by
          apply Classical.byContradiction
          intro z0
          rw [(ch_0 h q).mpr (by omega)] at c40
          exact absurd c40 (by decide)
        have eq : T q = 40 := by rw [← c40]; exact (if_pos ql).symm
        have nc : nI (ch T L q) = 40 := by rw [c40]; rfl
        rw [if_pos nc, if_pos nc, m1o]
        have rd : fX3_readSign (nI (T q)) (uI a 3 (nI q)) = fX3_openBracket (uI a 3 (nI q)) := by
          rw [rs_2 _ (show sI (uI a 3 (nI q)) 4 = 2 from h4)]
          unfold fX3_readFactor
          rw [nNm ql, if_pos rfl, if_neg (show ¬ nI (T q) = 123 by rw [eq]; decide), if_pos (show nI (T q) = 40 by rw [eq]; rfl), bind_sm]
        by_cases o8 : o < 8
        · rw [if_neg (show ¬ (8 : Int32) ≤ nI o from nI_ge (b := 8) o8 (by decide))]
          obtain ⟨b, b1, b2, b3, b4, b5, b6, b7, b8⟩ := p_begin (o := o + 1) (s := uI (uI a 3 (nI q)) 5 (nI (o + 1))) W rfl (by omega)
          have bb3 : sI b 3 = nI q := by rw [b5 3 (by omega) (by omega)]; rfl
          have g : Go 1 a (uI (uI b 3 (nI (q + 1))) 4 2) := by
            refine Go.one h ha hp h3 h9 (by rw [hq]; exact ql) ?_
            rw [hq, rd]
            unfold fX3_openBracket
            rw [show sI (uI a 3 (nI q)) 5 = nI o from h5, if_pos (show nI o < 8 from nI_lt (b := 8) o8 (by decide)), nI_1, b1]
            simp only [Option.bind_some, c_pass 2 bb3]
          have frb : cfo (o + 1) a (uI (uI b 3 (nI (q + 1))) 4 2) := cfo.of b2 (by omega) (fun n hn hn2 hn3 => b3 n (by omega)) (fun k z3 z4 z5 z7 hk => by
            rw [sI_ne _ z4, sI_ne _ z3, b5 k (by omega) (by omega), sI_ne _ z5, sI_ne _ z3]) b8
          rw [show mI (vI (vI m 5 (nI q)) 6 (nI o + 1)) 5 + 1 = nI (q + 1) from by show nI q + 1 = _; rw [nI_1], nI_1]
          have hmN : mTx T L (vI (vI (vI m 5 (nI q)) 6 (nI (o + 1))) 5 (nI (q + 1))) := ⟨hm.1, hm.2⟩
          have fmN : mfo hh m (vI (vI (vI m 5 (nI q)) 6 (nI (o + 1))) 5 (nI (q + 1))) := fm1.trans ((mfo_u (m := vI m 5 (nI q)) V (by decide) _ _).trans (mfo_u (m := vI (vI m 5 (nI q)) 6 (nI (o + 1))) V (by decide) _ _))
          obtain ⟨m2, e1, e2, e3⟩ := HS o8 (uI (uI b 3 (nI (q + 1))) 4 2) (vI (vI (vI m 5 (nI q)) 6 (nI (o + 1))) 5 (nI (q + 1))) (q + 1) hh ⟨frb.1, V, frb.tx ha, hmN, fun hvt i hi => (frb.2.1 _ (by omega)).trans (hv hvt i hi), by omega, rfl, rfl, (by rw [sI_ne _ (by decide), sI_ne _ (by decide), b5 5 (by omega) (by omega)]; rfl), by omega, (by rw [sI_ne _ (by decide), sI_ne _ (by decide), b5 9 (by omega) (by omega)]; exact h9), rfl, g4, rfl, g7⟩ (by omega) b4 (by rw [sI_ne _ (by omega), sI_ne _ (by omega)]; exact b6) (by rw [sI_ne _ (by omega), sI_ne _ (by omega)]; exact b7)
          rw [e1]
          simp only [Option.bind_some]
          have fm2 := fmN.trans e2
          rcases e3 with ⟨kd, pl, r1, r2, rx, r3⟩ | ⟨n, c, p', r1, r2, r3, r4, r5, r6, r7, r8, r9, r10, r11, r12, r13, r14, t1, t2, t3, t4, t5, t6⟩
          · have nk : ¬ mI m2 7 = 0 := by
              obtain ⟨_, _, _, _, _, _, hk, _⟩ := r3
              rw [r1]
              exact kd_ne hk
            rw [if_neg nk]
            exact ⟨_, rfl, fm2.trans (mfo_u e2.1 (by decide) _ _), Or.inl ⟨kd, pl, r1, r2, rx, Err.step g (p' := q + 1) (by omega) frb.aeq r3⟩⟩
          · rw [if_pos r12]
            obtain ⟨j1, j2⟩ := sk_le T r4
            have hsj := sk_sk T r4
            have ex := m_expects (e := 41) h (fm2.tx hm) (p := sk T L p') j2 t1 r12 (by decide)
            have hch2 := ch_lt h (sk T L p')
            rw [hsj] at ex
            generalize hq1 : sk T L p' = q1 at *
            rw [show (41 : Int32) = nI 41 from rfl, ex]
            have frc := frb.trans r2
            by_cases c41 : ch T L q1 = 41
            · have q1l : q1 < L := by
                apply Classical.byContradiction
                intro z0
                rw [(ch_0 h q1).mpr (by omega)] at c41
                exact absurd c41 (by decide)
              have eq1 : T q1 = 41 := by rw [← c41]; exact (if_pos q1l).symm
              rw [if_pos c41]
              simp only [Option.bind_some]
              rw [show mI (vI m2 5 (nI (q1 + 1))) 6 - 1 = nI o from by rw [b_mI_vI, if_neg (by decide), r11, nI_pred]]
              obtain ⟨d, d1, d2, d3, d4, d5, d6, d7, d8⟩ := p_end (o := o + 1) 0 (s := uI c 3 (nI q1)) r2.1 r8 (by omega)
              rw [sI_ne _ (show 11 + 2 * (o + 1) ≠ 3 by omega)] at d4
              have dd5 : sI d 5 = nI (o + 1) := (d5 5 (by omega) (by omega)).trans r8
              obtain ⟨w, u1, u2, u3, u4, u5, u6, u7⟩ := p_use (x := 34 + (o + 1)) (o := o) (s := uI d 5 (nI o)) d2 rfl ho (by rw [sI_ne _ (by omega), d5 _ (by omega) (by omega), sI_ne _ (by omega), (frc.2.2.1 o (by omega)).2.2.2]; exact hb) (by omega)
              rw [sI_ne _ (show 12 + 2 * o ≠ 5 by omega), d5 _ (by omega) (by omega), sI_ne _ (show 12 + 2 * o ≠ 3 by omega), (frc.2.2.1 o (by omega)).2.2.2] at u4
              have w3 : sI w 3 = nI q1 := by rw [u5 3 (by omega), sI_ne _ (by decide), d5 3 (by omega) (by omega)]; rfl
              have g2 : Go 1 c (uI (uI w 3 (nI (q1 + 1))) 4 3) := by
                refine Go.one h (frc.tx ha) r4 r3 r9 (by rw [hq1]; exact q1l) ?_
                rw [hq1, rs_3 _ (show sI (uI c 3 (nI q1)) 4 = 3 from r7)]
                unfold fX3_readBehindFactor
                rw [eq1, if_neg (by decide), if_neg (by decide), if_neg (by decide), if_neg (by decide), if_pos (show nI 41 = 41 from rfl), show sI (uI c 3 (nI q1)) 5 = nI (o + 1) from r8, if_neg (nI_nle (by omega) (by omega)), bind_sm]
                unfold fX3_closeBracket
                rw [d1]
                simp only [Option.bind_some, dd5, vin9 (show o + 1 < 9 by omega), cl9 (show o + 1 < 9 by omega), if_true]
                rw [nI_pred, u1]
                simp only [Option.bind_some, c_pass 3 w3]
              have frw : cfo o c (uI (uI w 3 (nI (q1 + 1))) 4 3) := cfo.of u2 (by omega) (fun n hn hn2 hn3 => by
                show cB w n = cB c n
                rw [u3 n (by omega), show cB (uI d 5 (nI o)) n = cB d n from rfl, d3 n (by omega)]; rfl) (fun k z3 z4 z5 z7 hk => by
                rw [sI_ne _ z4, sI_ne _ z3, u5 k (by omega), sI_ne _ z5, d5 k (by omega) (by omega), sI_ne _ z3]) (u7.trans d8)
              have less : cfo o a c := ⟨frc.1, frc.2.1, fun i hi => frc.2.2.1 i (by omega), frc.2.2.2⟩
              refine ⟨_, rfl, fm2.trans ((mfo_u e2.1 (by decide) _ _).trans (mfo_u (m := vI m2 5 (nI (q1 + 1))) e2.1 (by decide) _ _)), Or.inr ⟨1 + n + 1, _, q1 + 1, (g.trans r1).trans g2, less.trans frw, rfl, by omega, by omega, by omega, rfl, ?_, ?_, r10, rfl, r12, r13, ?_, rfl, ?_, ?_, ?_⟩⟩
              · rw [sI_ne _ (by decide), sI_ne _ (by decide), u5 5 (by omega)]; rfl
              · rw [sI_ne _ (by decide), sI_ne _ (by decide), u5 9 (by omega), sI_ne _ (by decide), d5 9 (by omega) (by omega)]; exact r9
              · rw [sI_ne _ (by omega), sI_ne _ (by omega)]; exact u6
              · show cB w (34 + o) = _
                rw [u3 _ (by omega), show cB (uI d 5 (nI o)) (34 + o) = cB d (34 + o) from rfl, d3 _ (by omega)]
                exact (frc.2.2.1 o (by omega)).1
              · rw [sI_ne _ (by omega), sI_ne _ (by omega), u5 _ (by omega), sI_ne _ (by omega), d5 _ (by omega) (by omega), sI_ne _ (by omega)]
                exact (frc.2.2.1 o (by omega)).2.2.1
              · intro hvt
                show cB w (43 + o) = _
                have ev : cB (uI d 5 (nI o)) (34 + (o + 1)) = mB m2 (24 + hh) := by
                  show cB d (34 + (o + 1)) = _
                  rw [d4]
                  exact t6 hvt
                have e43 : cB (uI d 5 (nI o)) (43 + o) = cB a (43 + o) := by
                  show cB d (43 + o) = _
                  rw [d3 _ (by omega)]
                  exact (frc.2.2.1 o (by omega)).2.1
                rw [u4, ev, e43]
                rfl
            · rw [if_neg c41]
              simp only [Option.bind_some]
              refine ⟨_, rfl, ?_, Or.inl ⟨1, q1, rfl, rfl, ⟨q1, j2, rfl⟩, ?_⟩⟩
              · exact fm2.trans ((mfo_u e2.1 (by decide) _ _).trans ((mfo_u (m := vI m2 5 (nI q1)) e2.1 (by decide) _ _).trans ((mfo_u (m := vI (vI m2 5 (nI q1)) 7 1) e2.1 (by decide) _ _).trans (mfo_u (m := vI (vI (vI m2 5 (nI q1)) 7 1) 8 (nI q1)) e2.1 (by decide) _ _))))
              · by_cases q1l : q1 < L
                · have eq1 : ch T L q1 = T q1 := if_pos q1l
                  rw [eq1] at t2 t3 t4 t5 c41 hch2
                  have g2 : Go 1 c (uI (uI (uI c 3 (nI q1)) 9 1) 10 (nI q1)) := by
                    refine Go.one h (frc.tx ha) r4 r3 r9 (by rw [hq1]; exact q1l) ?_
                    rw [hq1, rs_3 _ (show sI (uI c 3 (nI q1)) 4 = 3 from r7)]
                    unfold fX3_readBehindFactor
                    rw [if_neg (show ¬ nI (T q1) = 38 from ch_ne (d := 38) hch2 (by decide) t2), if_neg (show ¬ nI (T q1) = 124 from ch_ne (d := 124) hch2 (by decide) t3), if_neg (show ¬ nI (T q1) = 45 from ch_ne (d := 45) hch2 (by decide) t4), if_neg (show ¬ nI (T q1) = 94 from ch_ne (d := 94) hch2 (by decide) t5), if_neg (show ¬ nI (T q1) = 41 from ch_ne (d := 41) hch2 (by decide) c41), show sI (uI c 3 (nI q1)) 5 = nI (o + 1) from r8, if_neg (nI_ne0 (show 0 < o + 1 by omega) (by omega))]
                    split <;> rfl
                  have fc : cfi c (uI (uI (uI c 3 (nI q1)) 9 1) 10 (nI q1)) := cfi_fail r2.1 q1 1 q1
                  exact Err.step ((g.trans r1).trans g2) (p' := q1 + 1) (by omega) (aeq_trans frc.aeq fc.aeq) (Err.fin fc.1 (by omega) (Or.inl rfl) (by omega) rfl rfl)
                · have eL : q1 = L := by omega
                  rw [eL]
                  exact Err.step (g.trans r1) (p' := p') (by omega) frc.aeq (Err.eot r2.1 r4 r9 (by rw [r7]; decide) r4 r3 (by rw [hq1, eL]))
        · rw [if_pos (show (8 : Int32) ≤ nI o from nI_le (a := 8) (by omega) (by omega)), m_fails 2 _ m17]
          simp only [Option.bind_some]
          have g : Go 1 a (uI (uI (uI a 3 (nI q)) 9 2) 10 (nI q)) := by
            refine Go.one h ha hp h3 h9 (by rw [hq]; exact ql) ?_
            rw [hq, rd]
            unfold fX3_openBracket
            rw [show sI (uI a 3 (nI q)) 5 = nI o from h5, if_neg (show ¬ nI o < 8 from nI_nlt (b := 8) (by omega) (by omega))]
            rfl
          have fc : cfi a (uI (uI (uI a 3 (nI q)) 9 2) 10 (nI q)) := cfi_fail W q 2 q
          exact ⟨_, rfl, fm1.trans ((mfo_u (m := vI m 5 (nI q)) V (by decide) _ _).trans (mfo_u (m := vI (vI m 5 (nI q)) 7 2) V (by decide) _ _)), Or.inl ⟨2, q, rfl, rfl, ⟨q, k2, rfl⟩, Err.step g (p' := q + 1) (by omega) fc.aeq (Err.fin fc.1 (by omega) (Or.inr rfl) (by omega) rfl rfl)⟩⟩
      · -- nothing of it
        have nc : ¬ nI (ch T L q) = 40 := ch_ne (d := 40) hch (by decide) c40
        rw [if_neg nc, if_neg nc, m_fails 1 _ m17]
        simp only [Option.bind_some]
        refine ⟨_, rfl, fm1.trans ((mfo_u (m := vI m 5 (nI q)) V (by decide) _ _).trans (mfo_u (m := vI (vI m 5 (nI q)) 7 1) V (by decide) _ _)), Or.inl ⟨1, q, rfl, rfl, ⟨q, k2, rfl⟩, ?_⟩⟩
        by_cases ql : q < L
        · have eq : ch T L q = T q := if_pos ql
          have nn := nNm ql
          rw [eq] at c123 c40 hch
          have g : Go 1 a (uI (uI (uI a 3 (nI q)) 9 1) 10 (nI q)) := by
            refine Go.one h ha hp h3 h9 (by rw [hq]; exact ql) ?_
            rw [hq, rs_2 _ (show sI (uI a 3 (nI q)) 4 = 2 from h4)]
            unfold fX3_readFactor
            rw [nn, if_pos rfl, if_neg (show ¬ nI (T q) = 123 from ch_ne (d := 123) hch (by decide) c123), if_neg (show ¬ nI (T q) = 40 from ch_ne (d := 40) hch (by decide) c40)]
            rfl
          have fc : cfi a (uI (uI (uI a 3 (nI q)) 9 1) 10 (nI q)) := cfi_fail W q 1 q
          exact Err.step g (p' := q + 1) (by omega) fc.aeq (Err.fin fc.1 (by omega) (Or.inl rfl) (by omega) rfl rfl)
        · have eL : q = L := by omega
          rw [eL]
          exact Err.eot W hp h9 (by rw [h4]; decide) hp h3 (by rw [hq, eL])
