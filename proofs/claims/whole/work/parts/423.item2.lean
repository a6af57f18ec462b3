/-! ===== reading: an item ===== -/
theorem bind_sm {α : Type} (o : Option α) : (o.bind fun s => some s) = o := by cases o <;> rfl
def Af (T : Nat → Nat) (L : Nat) (a : cS) (m0 m : mS) (z pc0 : Nat) : Prop := ∃ n a' p' pc', Go n a a' ∧ cfi a a' ∧ sI a' 9 = 0 ∧ (sI a' 4 = 8 ∨ sI a' 4 = 6 ∧ ch T L (sk T L p') ≠ 46) ∧ sI a' 3 = nI pc' ∧ pc' ≤ L ∧ mI m 5 = nI p' ∧ p' ≤ L ∧ sk T L pc' = sk T L p' ∧ n + pc0 ≤ pc' ∧ cB a' 33 = mB m z ∧ mI m 7 = 0 ∧ mI m 8 = mI m0 8
theorem rs_item {c : Nat} (hc : c < 256) {a : cS} (h4 : sI a 4 = 5 ∨ sI a 4 = 4 ∧ c ≠ 125) : fX3_readSign (nI c) a = fX3_readItem (nI c) a := by
  unfold fX3_readSign
  rcases h4 with h4 | ⟨h4, h⟩
  · rw [h4]
    simp only [bind_sm]
    rfl
  · rw [h4]
    simp only [bind_sm]
    unfold fX3_readFirstItem
    rw [if_neg (show ¬ nI c = 125 from ch_ne (d := 125) hc (by decide) h), bind_sm]
    rfl
theorem rs_6 (x : Int32) {a : cS} (h4 : sI a 4 = 6) : fX3_readSign x a = fX3_readBehindNumber x a := by
  unfold fX3_readSign
  rw [h4]
  simp only [bind_sm]
  rfl
theorem rs_7 (x : Int32) {a : cS} (h4 : sI a 4 = 7) : fX3_readSign x a = fX3_readSecondNumber x a := by
  unfold fX3_readSign
  rw [h4]
  simp only [bind_sm]
  rfl
theorem rs_8 (x : Int32) {a : cS} (h4 : sI a 4 = 8) : fX3_readSign x a = fX3_readBehindItem x a := by
  unfold fX3_readSign
  rw [h4]
  simp only [bind_sm]
  rfl
theorem second_num {T : Nat → Nat} {L q k : Nat} (h : TX T L) {a : cS} {m : mS} (W : Wf a) (ha : cTx T L a) (hm : mTx T L m) (hq : q < L) (h3 : sI a 3 = nI q) (h9 : sI a 9 = 0) (h5 : mI m 5 = nI q) (h7 : mI m 7 = 0) (k0 : 0 < k) (k1 : k < 102) (hk : sI a 7 = nI k - 51) : ∃ a1 r s1, (fX3_readNumber (nI (T q)) (sI a 7) a).bind (fun (r1, s1) => fX3_readSecondNumber_L28 r1 (fun s3 => some (uI s3 4 8)) 1100 (sI s1 7) s1) = some a1 ∧ fX8_number m = some (r, s1) ∧ cfi a a1 ∧ ((∃ p' kd pl, p' ≤ L ∧ (kd = 1 ∨ kd = 2) ∧ pl ≤ L ∧ sI a1 9 = nI kd ∧ sI a1 10 = nI pl ∧ s1 = mFail m p' kd pl) ∨ (∃ p' l, q < p' ∧ p' ≤ L ∧ 0 < l ∧ l < k ∧ r = nI l - 51 ∧ s1 = vI m 5 (nI p') ∧ sI a1 9 = nI 2 ∧ sI a1 10 = nI q) ∨ (∃ p' l, q < p' ∧ p' ≤ L ∧ k ≤ l ∧ l < 102 ∧ r = nI l - 51 ∧ s1 = vI m 5 (nI p') ∧ sI a1 9 = 0 ∧ sI a1 4 = 8 ∧ sI a1 3 = nI p' ∧ cB a1 33 = rg (cB a 33) k l)) := by
  have hL := h.1
  have go : ∀ (s : cS) (e : Nat), Wf s → e < 102 → sI s 7 = nI k - 51 → ∃ s', fX3_readSecondNumber_L28 (nI e - 51) (fun s3 => some (uI s3 4 8)) 1100 (sI s 7) s = some s' ∧ cfi s s' ∧ sI s' 9 = sI s 9 ∧ sI s' 10 = sI s 10 ∧ sI s' 4 = 8 ∧ sI s' 3 = sI s 3 ∧ cB s' 33 = rg (cB s 33) k e := by
    intro s e Ws he h7s
    obtain ⟨s2, e1, e2, e3, e4⟩ := p_rng_L he (fun s3 => some (uI s3 4 8)) (102 - k) 1100 k s (by omega) k0 (by omega) Ws
    rw [h7s]
    refine ⟨uI s2 4 8, e1, e2.trans (cfi_u e2.1 (Or.inr (Or.inl rfl)) _), ?_, ?_, rfl, ?_, e3⟩
    · rw [sI_ne _ (by decide), e4]
    · rw [sI_ne _ (by decide), e4]
    · rw [sI_ne _ (by decide), e4]
  rw [hk]
  rcases num_both h ha hm hq h3 h5 h7 (l := k) k0 k1 with ⟨p', e0, e1, e2, e3⟩ | ⟨p', r, e0, e1, e2, e3⟩ | ⟨p', l, e0, e1, l0, l1, e2, e3⟩
  · have W1 := (cfi_fail W p' 1 p').1
    obtain ⟨s', g1, g2, g3, g4, g5, g6, g7⟩ := go (cFail a p' 1 p') 51 W1 (by decide) hk
    have pl : p' ≤ L := by rw [e0]; split <;> omega
    refine ⟨s', 0, mFail m p' 1 p', ?_, e3, (cfi_fail W p' 1 p').trans g2, Or.inl ⟨p', 1, p', pl, Or.inl rfl, pl, ?_, ?_, rfl⟩⟩
    · rw [e2.trans (show some ((0 : Int32), cFail a p' 1 p') = some (nI 51 - 51, cFail a p' 1 p') from by rw [z51])]
      simp only [Option.bind_some]
      exact g1
    · rw [g3]
      rfl
    · rw [g4]
      rfl
  · have W1 := (cfi_fail W p' 2 q).1
    obtain ⟨s', g1, g2, g3, g4, g5, g6, g7⟩ := go (cFail a p' 2 q) 51 W1 (by decide) hk
    refine ⟨s', r, mFail m p' 2 q, ?_, e3, (cfi_fail W p' 2 q).trans g2, Or.inl ⟨p', 2, q, e1, Or.inr rfl, by omega, ?_, ?_, rfl⟩⟩
    · rw [e2.trans (show some ((0 : Int32), cFail a p' 2 q) = some (nI 51 - 51, cFail a p' 2 q) from by rw [z51])]
      simp only [Option.bind_some]
      exact g1
    · rw [g3]
      rfl
    · rw [g4]
      rfl
  · by_cases c : l < k
    · have W1 := (cfi_fail W p' 2 q).1
      obtain ⟨s', g1, g2, g3, g4, g5, g6, g7⟩ := go (cFail a p' 2 q) 51 W1 (by decide) hk
      refine ⟨s', nI l - 51, vI m 5 (nI p'), ?_, e3, (cfi_fail W p' 2 q).trans g2, Or.inr (Or.inl ⟨p', l, e0, e1, l0, c, rfl, rfl, ?_, ?_⟩)⟩
      · rw [e2, if_pos c, show some ((0 : Int32), cFail a p' 2 q) = some (nI 51 - 51, cFail a p' 2 q) from by rw [z51]]
        simp only [Option.bind_some]
        exact g1
      · rw [g3]
        rfl
      · rw [g4]
        rfl
    · have f0 := cfi_u W (k := 3) (Or.inl rfl) (nI p')
      obtain ⟨s', g1, g2, g3, g4, g5, g6, g7⟩ := go (uI a 3 (nI p')) l f0.1 l1 hk
      refine ⟨s', nI l - 51, vI m 5 (nI p'), ?_, e3, f0.trans g2, Or.inr (Or.inr ⟨p', l, e0, e1, by omega, l1, rfl, rfl, ?_, g5, ?_, g7⟩)⟩
      · rw [e2, if_neg c]
        simp only [Option.bind_some]
        exact g1
      · rw [g3]
        exact h9
      · rw [g6]
        rfl
theorem mf7 (m : mS) (p kd pl : Nat) : mI (mFail m p kd pl) 7 = nI kd ∧ mI (mFail m p kd pl) 8 = nI pl := ⟨rfl, rfl⟩
theorem item_both {T : Nat → Nat} {L p pc z : Nat} (h : TX T L) {a : cS} {m : mS} (W : Wf a) (V : Vm m) (ha : cTx T L a) (hm : mTx T L m) (hp : p ≤ L) (hpc : pc ≤ L) (hsk : sk T L pc = sk T L p) (h3 : sI a 3 = nI pc) (h9 : sI a 9 = 0) (h5 : mI m 5 = nI p) (h7 : mI m 7 = 0) (h4 : sI a 4 = 5 ∨ sI a 4 = 4 ∧ ch T L (sk T L p) ≠ 125) (hX : cB a 33 = mB m z) : ∃ m', fX8_item z m = some m' ∧ mfi z m m' ∧ ((∃ kd pl, mI m' 7 = nI kd ∧ mI m' 8 = nI pl ∧ AtM L m' ∧ Err T L a pc kd pl) ∨ Af T L a m m' z pc) := by
  have hL := h.1
  obtain ⟨k1, k2⟩ := sk_le T hp
  have kc := sk_le T hpc
  have hmb := m_blanks h hm hp h5
  have hsi := sk_sk T hp
  have hch := ch_lt h (sk T L p)
  have V1 : Vm (vI m 5 (nI (sk T L p))) := V
  have hm1 : mTx T L (vI m 5 (nI (sk T L p))) := ⟨hm.1, hm.2⟩
  have f1 : mfi z m (vI m 5 (nI (sk T L p))) := mfi_u V (Or.inl rfl) _
  have m17 : mI (vI m 5 (nI (sk T L p))) 7 = 0 := h7
  have m15 : mI (vI m 5 (nI (sk T L p))) 5 = nI (sk T L p) := rfl
  have m18 : mI (vI m 5 (nI (sk T L p))) 8 = mI m 8 := rfl
  rw [hsk] at kc
  generalize hq : sk T L p = q at *
  unfold fX8_item
  rw [hmb]
  simp only [Option.bind_some]
  generalize hm1e : vI m 5 (nI q) = m1 at *
  have n0 : sI a 4 ≠ 0 := by rcases h4 with e | ⟨e, _⟩ <;> rw [e] <;> decide
  by_cases c35 : ch T L q = 35
  · -- NOTHING
    have ql : q < L := by
      apply Classical.byContradiction
      intro z0
      rw [(ch_0 h q).mpr (by omega)] at c35
      exact absurd c35 (by decide)
    have eq : T q = 35 := by rw [← c35]; exact (if_pos ql).symm
    rw [if_pos (show nI (ch T L q) = 35 by rw [c35]; rfl), if_pos (by decide)]
    obtain ⟨a1, e1, e2, e3⟩ := p_put 33 (uI a 3 (nI q)) (k := 0) (by decide)
    have e1 : fX2_put 33 0 (uI a 3 (nI q)) = some (bi (!cB (uI a 3 (nI q)) 33 0), a1) := e1
    have W1 : Wf a1 := Wf_up (a := uI a 3 (nI q)) W (wf_set (W 33) (by decide) true) e2
    have i1 : ∀ j, sI a1 j = sI (uI a 3 (nI q)) j := fun j => sI_eq e3 j
    have fa : cfi a a1 := (cfi_u W (k := 3) (Or.inl rfl) (nI q)).trans ⟨W1, fun n hn => by rw [e2]; exact zu_ne _ hn _, fun j _ _ _ _ _ => i1 j, sT_eq e3, fun z => ⟨(i1 9).symm.trans z, i1 10⟩⟩
    have x33 : cB a1 33 = va_up (cB a 33) 0 true := by rw [e2]; exact zu_at _ _ _
    have g : Go 1 a (uI (uI a1 3 (nI (q + 1))) 4 8) := by
      refine Go.one h ha hpc h3 h9 (by rw [hsk]; exact ql) ?_
      rw [hsk, rs_item (a := uI a 3 (nI q)) (by rw [eq]; decide) (by rcases h4 with e | ⟨e, e'⟩; exact Or.inl e; exact Or.inr ⟨e, by rw [eq]; decide⟩)]
      unfold fX3_readItem
      rw [if_pos (show nI (T q) = 35 by rw [eq]; rfl), e1]
      simp only [Option.bind_some]
      unfold fX3_pass
      simp only [Option.bind_some]
      rw [i1 3, show sI (uI a 3 (nI q)) 3 = nI q from rfl, nI_1]
    have x1 : mB (vR m1 z 0 (bi true)) z = va_up (mB m1 z) 0 true := by rw [mB_set m1 (by decide)]; exact zu_at _ _ _
    have e5 : mI (vR m1 z 0 (bi true)) 5 = nI q := m15
    refine ⟨vI (vR m1 z 0 (bi true)) 5 (nI (q + 1)), ?_, ?_, Or.inr ⟨1, _, q + 1, q + 1, g, ?_, ?_, Or.inl rfl, rfl, by omega, rfl, by omega, rfl, by omega, ?_, m17, m18⟩⟩
    · rw [nb_1, show (0 : Int32).toNatClampNeg = 0 from rfl, e5, nI_1]
    · exact f1.trans (mfi.trans ⟨Vm_vR V1 _ _ _, fun r hr => by rw [mB_set m1 (by decide)]; exact zu_ne _ hr _, fun _ _ _ _ => rfl, rfl⟩ (mfi_u (m := vR m1 z 0 (bi true)) (Vm_vR V1 _ _ _) (Or.inl rfl) _))
    · exact fa.trans ((cfi_u W1 (Or.inl rfl) _).trans (cfi_u (a := uI a1 3 (nI (q + 1))) W1 (Or.inr (Or.inl rfl)) _))
    · rw [sI_ne _ (by decide), sI_ne _ (by decide), i1, sI_ne _ (by decide)]
      exact h9
    · show cB a1 33 = mB (vR m1 z 0 (bi true)) z
      rw [x33, x1, hX, ← hm1e]
      rfl
  · rw [if_neg (show ¬ nI (ch T L q) = 35 from ch_ne (d := 35) hch (by decide) c35)]
    by_cases sg : ch T L q = 45 ∨ dgt (ch T L q) = true
    · -- a number
      have ql : q < L := by
        apply Classical.byContradiction
        intro z0
        rw [(ch_0 h q).mpr (by omega)] at sg
        exact absurd sg (by decide)
      have eq : ch T L q = T q := if_pos ql
      rw [eq] at sg c35 hch
      have fa1 : cfi a (uI a 3 (nI q)) := cfi_u W (k := 3) (Or.inl rfl) (nI q)
      obtain ⟨a1, r, s1, e1, e2, e3, e4⟩ := item_num h (z := z) (a := uI a 3 (nI q)) (m := m1) W V1 (fa1.tx ha) hm1 ql rfl h9 m15 m17 (by rw [← hm1e]; exact hX) sg
      have g : Go 1 a a1 := by
        refine Go.one h ha hpc h3 h9 (by rw [hsk]; exact ql) ?_
        rw [hsk, rs_item (a := uI a 3 (nI q)) hch (by rcases h4 with e | ⟨e, e'⟩; exact Or.inl e; exact Or.inr ⟨e, by rw [← eq]; exact e'⟩)]
        unfold fX3_readItem
        rw [if_neg (show ¬ nI (T q) = 35 from ch_ne (d := 35) hch (by decide) c35)]
        by_cases c45 : T q = 45
        · rw [if_pos (show nI (T q) = 45 by rw [c45]; rfl)]
          exact e1
        · rw [if_neg (show ¬ nI (T q) = 45 from ch_ne (d := 45) hch (by decide) c45), c_dgt hch, sg.resolve_left c45, if_neg (by decide)]
          exact e1
      have fa := fa1.trans e3
      rw [e2]
      simp only [Option.bind_some]
      rcases e4 with ⟨p', kd, pl, d0, d1, d2, d3, d4, rfl⟩ | ⟨p', k, d1, d2, k0, k1', rfl, rfl, d3, d4, d5, d6, d7⟩
      · rw [if_neg (show ¬ mI (mFail m1 p' kd pl) 7 = 0 from kd_ne d1), m_rng_err z r r 1099 (show mI (mFail m1 p' kd pl) 7 ≠ 0 from kd_ne d1)]
        exact ⟨_, rfl, f1.trans (mfi_fail V1 p' kd pl), Or.inl ⟨kd, pl, rfl, rfl, ⟨p', d0, rfl⟩, Err.step g (p' := q + 1) (by omega) fa.aeq (Err.fin fa.1 (by omega) d1 d2 d3 d4)⟩⟩
      · have hmp : mTx T L (vI m1 5 (nI p')) := ⟨hm1.1, hm1.2⟩
        have fm2 : mfi z m (vI m1 5 (nI p')) := f1.trans (mfi_u V1 (Or.inl rfl) _)
        obtain ⟨j1, j2⟩ := sk_le T d2
        have hsj := sk_sk T d2
        have hmb2 := m_blanks h hmp d2 rfl
        rw [vI_twice] at hmb2
        rw [if_pos (show mI (vI m1 5 (nI p')) 7 = 0 from m17), hmb2]
        simp only [Option.bind_some]
        have hch2 := ch_lt h (sk T L p')
        generalize hq2 : sk T L p' = q2 at *
        by_cases c46 : ch T L q2 = 46
        · -- two points
          have q2l : q2 < L := by
            apply Classical.byContradiction
            intro z0
            rw [(ch_0 h q2).mpr (by omega)] at c46
            exact absurd c46 (by decide)
          have e46 : T q2 = 46 := by rw [← c46]; exact (if_pos q2l).symm
          have h5b : mI (vI m1 5 (nI q2)) 5 + 1 = nI (q2 + 1) := by show nI q2 + 1 = _; rw [nI_1]
          rw [if_pos (show nI (ch T L q2) = 46 by rw [c46]; rfl), h5b, vI_twice, m_sign h (m := vI m1 5 (nI (q2 + 1))) ⟨hm1.1, hm1.2⟩ (p := q2 + 1) (by omega) rfl]
          simp only [Option.bind_some]
          have hcq := ch_lt h (q2 + 1)
          have tx1 := fa.tx ha
          have fb0 : cfi a1 (uI (uI a1 3 (nI q2)) 3 (nI (q2 + 1))) := (cfi_u fa.1 (Or.inl rfl) _).trans (cfi_u (a := uI a1 3 (nI q2)) fa.1 (Or.inl rfl) _)
          by_cases c2 : ch T L (q2 + 1) = 46
          · rw [if_pos (show nI (ch T L (q2 + 1)) = 46 by rw [c2]; rfl)]
            have q21 : q2 + 1 < L := by
              apply Classical.byContradiction
              intro z0
              rw [(ch_0 h (q2 + 1)).mpr (by omega)] at c2
              exact absurd c2 (by decide)
            have gb : Go 1 a1 (uI (uI (uI (uI a1 3 (nI q2)) 3 (nI (q2 + 1))) 3 (nI (q2 + 2))) 4 7) := by
              refine Go.one h tx1 d2 d5 d3 (by rw [hq2]; exact q2l) ?_
              rw [hq2, rs_6 _ (show sI (uI a1 3 (nI q2)) 4 = 6 from d4)]
              unfold fX3_readBehindNumber
              rw [if_pos (show nI (T q2) = 46 by rw [e46]; rfl), show sI (uI a1 3 (nI q2)) 3 + 1 = nI (q2 + 1) from by show nI q2 + 1 = _; rw [nI_1], show sI (uI (uI a1 3 (nI q2)) 3 (nI (q2 + 1))) 3 = nI (q2 + 1) from rfl, p_byteAt h (fb0.tx tx1) (by omega)]
              simp only [Option.bind_some]
              rw [if_pos (show nI (ch T L (q2 + 1)) = 46 by rw [c2]; rfl)]
              unfold fX3_pass
              simp only [Option.bind_some]
              rw [show sI (uI (uI a1 3 (nI q2)) 3 (nI (q2 + 1))) 3 + 1 = nI (q2 + 2) from by show nI (q2 + 1) + 1 = _; rw [nI_1]]
            have fb : cfi a1 (uI (uI (uI (uI a1 3 (nI q2)) 3 (nI (q2 + 1))) 3 (nI (q2 + 2))) 4 7) := fb0.trans ((cfi_u (a := uI (uI a1 3 (nI q2)) 3 (nI (q2 + 1))) fa.1 (Or.inl rfl) _).trans (cfi_u (a := uI (uI (uI a1 3 (nI q2)) 3 (nI (q2 + 1))) 3 (nI (q2 + 2))) fa.1 (Or.inr (Or.inl rfl)) _))
            have b3 : sI (uI (uI (uI (uI a1 3 (nI q2)) 3 (nI (q2 + 1))) 3 (nI (q2 + 2))) 4 7) 3 = nI (q2 + 2) := rfl
            have b4 : sI (uI (uI (uI (uI a1 3 (nI q2)) 3 (nI (q2 + 1))) 3 (nI (q2 + 2))) 4 7) 4 = 7 := rfl
            have b9 : sI (uI (uI (uI (uI a1 3 (nI q2)) 3 (nI (q2 + 1))) 3 (nI (q2 + 2))) 4 7) 9 = 0 := d3
            have b7 : sI (uI (uI (uI (uI a1 3 (nI q2)) 3 (nI (q2 + 1))) 3 (nI (q2 + 2))) 4 7) 7 = nI k - 51 := d6
            have bX : cB (uI (uI (uI (uI a1 3 (nI q2)) 3 (nI (q2 + 1))) 3 (nI (q2 + 2))) 4 7) 33 = cB a1 33 := rfl
            generalize (uI (uI (uI (uI a1 3 (nI q2)) 3 (nI (q2 + 1))) 3 (nI (q2 + 2))) 4 7) = b at *
            have fab := fa.trans fb
            have gab := g.trans gb
            have h5c : mI (vI m1 5 (nI (q2 + 1))) 5 + 1 = nI (q2 + 2) := by show nI (q2 + 1) + 1 = _; rw [nI_1]
            have hmq : mTx T L (vI m1 5 (nI (q2 + 2))) := ⟨hm1.1, hm1.2⟩
            have l2 : q2 + 2 ≤ L := by omega
            obtain ⟨i1, i2⟩ := sk_le T l2
            have hmb3 := m_blanks h hmq l2 rfl
            rw [vI_twice] at hmb3
            rw [h5c, vI_twice, hmb3]
            simp only [Option.bind_some]
            have hs3 := sk_sk T l2
            have hch3 := ch_lt h (sk T L (q2 + 2))
            generalize hq3 : sk T L (q2 + 2) = q3 at *
            have fm3 : mfi z m (vI m1 5 (nI q3)) := f1.trans (mfi_u V1 (Or.inl rfl) _)
            have hm3 : mTx T L (vI m1 5 (nI q3)) := ⟨hm1.1, hm1.2⟩
            by_cases sg3 : ch T L q3 = 45 ∨ dgt (ch T L q3) = true
            · have q3l : q3 < L := by
                apply Classical.byContradiction
                intro z0
                rw [(ch_0 h q3).mpr (by omega)] at sg3
                exact absurd sg3 (by decide)
              have eq3 : ch T L q3 = T q3 := if_pos q3l
              rw [eq3] at sg3 hch3
              have fc0 : cfi b (uI b 3 (nI q3)) := cfi_u fab.1 (Or.inl rfl) _
              obtain ⟨a3, r3, s3, w1, w2, w3, w4⟩ := second_num h (a := uI b 3 (nI q3)) (m := vI m1 5 (nI q3)) (k := k) fab.1 (fc0.tx (fab.tx ha)) hm3 q3l rfl b9 rfl m17 k0 k1' b7
              have gc : Go 1 b a3 := by
                refine Go.one h (fab.tx ha) l2 b3 b9 (by rw [hq3]; exact q3l) ?_
                rw [hq3, rs_7 _ (show sI (uI b 3 (nI q3)) 4 = 7 from b4)]
                unfold fX3_readSecondNumber
                by_cases c45 : T q3 = 45
                · rw [if_pos (show nI (T q3) = 45 by rw [c45]; rfl)]
                  exact w1
                · rw [if_neg (show ¬ nI (T q3) = 45 from ch_ne (d := 45) hch3 (by decide) c45), c_dgt hch3, sg3.resolve_left c45, if_neg (by decide)]
                  exact w1
              have fabc := fab.trans (fc0.trans w3)
              have gabc := gab.trans gc
              rw [w2]
              simp only [Option.bind_some]
              rcases w4 with ⟨p4, kd, pl, v0, v1, v2, v3, v4, rfl⟩ | ⟨p4, l, v1, v2, v3, v4, rfl, rfl, v5, v6⟩ | ⟨p4, l, v1, v2, v3, v4, rfl, rfl, v5, v6, v7, v8⟩
              · rw [if_neg (show ¬ mI (mFail (vI m1 5 (nI q3)) p4 kd pl) 7 = 0 from kd_ne v1), m_rng_err z _ _ 1099 (show mI (mFail (vI m1 5 (nI q3)) p4 kd pl) 7 ≠ 0 from kd_ne v1)]
                exact ⟨_, rfl, fm3.trans (mfi_fail (m := vI m1 5 (nI q3)) V1 p4 kd pl), Or.inl ⟨kd, pl, rfl, rfl, ⟨p4, v0, rfl⟩, Err.step gabc (p' := q3 + 1) (by omega) fabc.aeq (Err.fin fabc.1 (by omega) v1 v2 v3 v4)⟩⟩
              · rw [if_pos (show mI (vI (vI m1 5 (nI q3)) 5 (nI p4)) 7 = 0 from m17), if_neg (fun z0 => by have := (km_le (by omega) (by omega)).mp z0; omega), m_fails 2 _ (show mI (vI (vI m1 5 (nI q3)) 5 (nI p4)) 7 = 0 from m17)]
                simp only [Option.bind_some]
                rw [m_rng_err z _ _ 1099 (m := vI (vI (vI (vI m1 5 (nI q3)) 5 (nI p4)) 7 2) 8 _) (show (2 : Int32) ≠ 0 by decide)]
                refine ⟨_, rfl, fm3.trans (mfi_fail (m := vI m1 5 (nI q3)) V1 p4 2 q3), Or.inl ⟨2, q3, rfl, rfl, ⟨p4, v2, rfl⟩, Err.step gabc (p' := q3 + 1) (by omega) fabc.aeq (Err.fin fabc.1 (by omega) (Or.inr rfl) (by omega) v5 v6)⟩⟩
              · rw [if_pos (show mI (vI (vI m1 5 (nI q3)) 5 (nI p4)) 7 = 0 from m17), if_pos ((km_le (by omega) (by omega)).mpr v3)]
                obtain ⟨m9, u1, u2, u3, u4⟩ := m_rng_L (z := z) (e := l) v4 (l + 1 - k) 1100 k (vI (vI m1 5 (nI q3)) 5 (nI p4)) (by omega) k0 (by omega) V1 m17
                have u5 : ∀ j, mI m9 j = mI (vI (vI m1 5 (nI q3)) 5 (nI p4)) j := fun j => mI_eq u4 j
                refine ⟨m9, u1, fm3.trans ((mfi_u (m := vI m1 5 (nI q3)) V1 (Or.inl rfl) _).trans u2), Or.inr ⟨1 + 1 + 1, a3, p4, p4, gabc, fabc, v5, Or.inl v6, v7, v2, ?_, v2, rfl, by omega, ?_, ?_, ?_⟩⟩
                · rw [u5]
                  rfl
                · rw [v8, u3]
                  show rg (cB b 33) k l = rg (mB m1 z) k l
                  rw [bX, d7]
                  show rg (rg (cB a 33) k k) k l = _
                  rw [hX, show mB m z = mB m1 z from by rw [← hm1e]; rfl]
                  funext j
                  unfold rg
                  by_cases y : j = k
                  · subst y
                    rw [decide_eq_true (show j ≤ j ∧ j ≤ j by omega), decide_eq_true (show j ≤ j ∧ j ≤ l by omega), Bool.or_true, Bool.or_true]
                  · rw [decide_eq_false (show ¬ (k ≤ j ∧ j ≤ k) by omega), Bool.or_false]
                · rw [u5]
                  exact m17
                · rw [u5]
                  exact m18
            · have hn45 : ch T L q3 ≠ 45 := fun z0 => sg3 (Or.inl z0)
              have hnd : dgt (ch T L q3) = false := ts_nt' (fun z0 => sg3 (Or.inr z0))
              rw [m_bad_number h hm3 (by omega) rfl m17 hn45 hnd]
              simp only [Option.bind_some]
              rw [if_neg (show ¬ mI (mFail (vI m1 5 (nI q3)) q3 1 q3) 7 = 0 from kd_ne (kd := 1) (Or.inl rfl)), m_rng_err z _ _ 1099 (show mI (mFail (vI m1 5 (nI q3)) q3 1 q3) 7 ≠ 0 from kd_ne (kd := 1) (Or.inl rfl))]
              refine ⟨_, rfl, fm3.trans (mfi_fail (m := vI m1 5 (nI q3)) V1 q3 1 q3), Or.inl ⟨1, q3, rfl, rfl, ⟨q3, by omega, rfl⟩, ?_⟩⟩
              by_cases q3l : q3 < L
              · have eq3 : ch T L q3 = T q3 := if_pos q3l
                rw [eq3] at hn45 hnd hch3
                have gc : Go 1 b (uI (uI (uI b 3 (nI q3)) 9 1) 10 (nI q3)) := by
                  refine Go.one h (fab.tx ha) l2 b3 b9 (by rw [hq3]; exact q3l) ?_
                  rw [hq3, rs_7 _ (show sI (uI b 3 (nI q3)) 4 = 7 from b4)]
                  unfold fX3_readSecondNumber
                  rw [if_neg (show ¬ nI (T q3) = 45 from ch_ne (d := 45) hch3 (by decide) hn45), c_dgt hch3, hnd, if_pos (show bi false = 0 from rfl)]
                  rfl
                have fc : cfi b (uI (uI (uI b 3 (nI q3)) 9 1) 10 (nI q3)) := cfi_fail fab.1 q3 1 q3
                exact Err.step (gab.trans gc) (p' := q3 + 1) (by omega) (fab.trans fc).aeq (Err.fin fc.1 (by omega) (Or.inl rfl) (by omega) rfl rfl)
              · have e3L : q3 = L := by omega
                rw [e3L]
                exact Err.step gab (p' := q2 + 2) (by omega) fab.aeq (Err.eot fab.1 l2 b9 (by rw [b4]; decide) l2 b3 (by rw [hq3, e3L]))
          · rw [if_neg (show ¬ nI (ch T L (q2 + 1)) = 46 from ch_ne (d := 46) hcq (by decide) c2), m_fails 1 _ (show mI (vI m1 5 (nI (q2 + 1))) 7 = 0 from m17)]
            simp only [Option.bind_some]
            have gb : Go 1 a1 (uI (uI (uI (uI a1 3 (nI q2)) 3 (nI (q2 + 1))) 9 1) 10 (nI (q2 + 1))) := by
              refine Go.one h tx1 d2 d5 d3 (by rw [hq2]; exact q2l) ?_
              rw [hq2, rs_6 _ (show sI (uI a1 3 (nI q2)) 4 = 6 from d4)]
              unfold fX3_readBehindNumber
              rw [if_pos (show nI (T q2) = 46 by rw [e46]; rfl), show sI (uI a1 3 (nI q2)) 3 + 1 = nI (q2 + 1) from by show nI q2 + 1 = _; rw [nI_1], show sI (uI (uI a1 3 (nI q2)) 3 (nI (q2 + 1))) 3 = nI (q2 + 1) from rfl, p_byteAt h (fb0.tx tx1) (by omega)]
              simp only [Option.bind_some]
              rw [if_neg (show ¬ nI (ch T L (q2 + 1)) = 46 from ch_ne (d := 46) hcq (by decide) c2)]
              rfl
            have fb : cfi a1 (uI (uI (uI (uI a1 3 (nI q2)) 3 (nI (q2 + 1))) 9 1) 10 (nI (q2 + 1))) := (cfi_u fa.1 (Or.inl rfl) _).trans (cfi_fail (a := uI a1 3 (nI q2)) fa.1 (q2 + 1) 1 (q2 + 1))
            refine ⟨_, rfl, f1.trans (mfi_fail V1 (q2 + 1) 1 (q2 + 1)), Or.inl ⟨1, q2 + 1, rfl, rfl, ⟨q2 + 1, by omega, rfl⟩, Err.step (g.trans gb) (p' := q2 + 1) (by omega) (fa.trans fb).aeq (Err.fin fb.1 (by omega) (Or.inl rfl) (by omega) rfl rfl)⟩⟩
        · rw [if_neg (show ¬ nI (ch T L q2) = 46 from ch_ne (d := 46) hch2 (by decide) c46)]
          obtain ⟨m9, u1, u2, u3, u4⟩ := m_rng_L (z := z) (e := k) k1' 1 1100 k (vI m1 5 (nI q2)) (by omega) k0 (by omega) V1 m17
          have u5 : ∀ j, mI m9 j = mI (vI m1 5 (nI q2)) j := fun j => mI_eq u4 j
          refine ⟨m9, u1, f1.trans ((mfi_u V1 (Or.inl rfl) _).trans u2), Or.inr ⟨1, a1, q2, p', g, fa, d3, Or.inr ⟨d4, by rw [hsj]; exact c46⟩, d5, d2, ?_, j2, ?_, by omega, ?_, ?_, ?_⟩⟩
          · rw [u5]
            rfl
          · rw [hq2, hsj]
          · rw [d7, u3]
            show rg (cB a 33) k k = rg (mB m1 z) k k
            rw [hX, ← hm1e]
            rfl
          · rw [u5]
            exact m17
          · rw [u5]
            exact m18
    · -- nothing of it
      have hn45 : ch T L q ≠ 45 := fun z0 => sg (Or.inl z0)
      have hnd : dgt (ch T L q) = false := ts_nt' (fun z0 => sg (Or.inr z0))
      rw [m_bad_number h hm1 k2 m15 m17 hn45 hnd]
      simp only [Option.bind_some]
      rw [if_neg (show ¬ mI (mFail m1 q 1 q) 7 = 0 from kd_ne (kd := 1) (Or.inl rfl)), m_rng_err z _ _ 1099 (show mI (mFail m1 q 1 q) 7 ≠ 0 from kd_ne (kd := 1) (Or.inl rfl))]
      refine ⟨_, rfl, f1.trans (mfi_fail V1 q 1 q), Or.inl ⟨1, q, rfl, rfl, ⟨q, k2, rfl⟩, ?_⟩⟩
      by_cases ql : q < L
      · have eq : ch T L q = T q := if_pos ql
        rw [eq] at hn45 hnd hch c35
        have g : Go 1 a (uI (uI (uI a 3 (nI q)) 9 1) 10 (nI q)) := by
          refine Go.one h ha hpc h3 h9 (by rw [hsk]; exact ql) ?_
          rw [hsk, rs_item (a := uI a 3 (nI q)) hch (by rcases h4 with e | ⟨e, e'⟩; exact Or.inl e; exact Or.inr ⟨e, by rw [← eq]; exact e'⟩)]
          unfold fX3_readItem
          rw [if_neg (show ¬ nI (T q) = 35 from ch_ne (d := 35) hch (by decide) c35), if_neg (show ¬ nI (T q) = 45 from ch_ne (d := 45) hch (by decide) hn45), c_dgt hch, hnd, if_pos (show bi false = 0 from rfl)]
          rfl
        have fc : cfi a (uI (uI (uI a 3 (nI q)) 9 1) 10 (nI q)) := cfi_fail W q 1 q
        exact Err.step g (p' := q + 1) (by omega) fc.aeq (Err.fin fc.1 (by omega) (Or.inl rfl) (by omega) rfl rfl)
      · have eL : q = L := by omega
        rw [eL]
        exact Err.eot W hpc h9 n0 hpc h3 (by rw [hsk, eL])
