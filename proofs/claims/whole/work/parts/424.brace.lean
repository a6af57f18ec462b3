/-! ===== reading: braces ===== -/
def Bd (T : Nat → Nat) (L : Nat) (a : cS) (m0 m : mS) (z pc0 : Nat) : Prop := ∃ n a' q pc', Go n a a' ∧ cfi a a' ∧ sI a' 9 = 0 ∧ (sI a' 4 = 8 ∨ sI a' 4 = 6 ∨ sI a' 4 = 4) ∧ sI a' 3 = nI pc' ∧ pc' ≤ L ∧ sk T L pc' = q ∧ q < L ∧ T q = 125 ∧ mI m 5 = nI (q + 1) ∧ n + pc0 ≤ pc' ∧ cB a' 33 = mB m z ∧ mI m 7 = 0 ∧ mI m 8 = mI m0 8
theorem rs_behind {c : Nat} (hc : c < 256) {a : cS} (h4 : sI a 4 = 8 ∨ sI a 4 = 6 ∧ c ≠ 46) : fX3_readSign (nI c) a = fX3_readBehindItem (nI c) a := by
  rcases h4 with h4 | ⟨h4, h⟩
  · exact rs_8 _ h4
  · rw [rs_6 _ h4]
    unfold fX3_readBehindNumber
    rw [if_neg (show ¬ nI c = 46 from ch_ne (d := 46) hc (by decide) h), bind_sm]
theorem brace_L {T : Nat → Nat} {L z : Nat} (h : TX T L) : ∀ (d fuel p pc : Nat) (a : cS) (m : mS), sk T L p + d = L → d < fuel → Wf a → Vm m → cTx T L a → mTx T L m → p ≤ L → pc ≤ L → sk T L pc = sk T L p → sI a 3 = nI pc → sI a 9 = 0 → mI m 5 = nI p → mI m 7 = 0 → (sI a 4 = 8 ∨ sI a 4 = 6 ∧ ch T L (sk T L p) ≠ 46) → cB a 33 = mB m z → ∃ m', fX8_braces_L38 z (fun s7 => if (mI s7 7) = 0 then ((fX8_expects (125 : Int32) s7).bind (fun s8 => some (s8))) else (some (s7))) fuel m = some m' ∧ mfi z m m' ∧ ((∃ kd pl, mI m' 7 = nI kd ∧ mI m' 8 = nI pl ∧ AtM L m' ∧ Err T L a pc kd pl) ∨ Bd T L a m m' z pc) := by
  have hL := h.1
  intro d
  induction d using Nat.strongRecOn with
  | _ d ih =>
  intro fuel p pc a m hd hf W V ha hm hp hpc hsk h3 h9 h5 h7 h4 hX
  obtain ⟨f, rfl⟩ : ∃ f, fuel = f + 1 := ⟨fuel - 1, by omega⟩
  obtain ⟨k1, k2⟩ := sk_le T hp
  have kc := sk_le T hpc
  have hmb := m_blanks h hm hp h5
  have hsi := sk_sk T hp
  have hch := ch_lt h (sk T L p)
  have V1 : Vm (vI m 5 (nI (sk T L p))) := V
  have hm1 : mTx T L (vI m 5 (nI (sk T L p))) := ⟨hm.1, hm.2⟩
  have f1 : mfi z m (vI m 5 (nI (sk T L p))) := mfi_u V (Or.inl rfl) _
  have m17 : mI (vI m 5 (nI (sk T L p))) 7 = 0 := h7
  rw [hsk] at kc
  generalize hq : sk T L p = q at *
  rw [fX8_braces_L38, if_pos h7, hmb]
  simp only [Option.bind_some]
  have n0 : sI a 4 ≠ 0 := by rcases h4 with e | ⟨e, _⟩ <;> rw [e] <;> decide
  have fa1 : cfi a (uI a 3 (nI q)) := cfi_u W (k := 3) (Or.inl rfl) (nI q)
  by_cases c44 : ch T L q = 44
  · have ql : q < L := by
      apply Classical.byContradiction
      intro z0
      rw [(ch_0 h q).mpr (by omega)] at c44
      exact absurd c44 (by decide)
    have eq : T q = 44 := by rw [← c44]; exact (if_pos ql).symm
    rw [if_pos (show nI (ch T L q) = 44 by rw [c44]; rfl), show mI (vI m 5 (nI q)) 5 + 1 = nI (q + 1) from by show nI q + 1 = _; rw [nI_1], vI_twice]
    have g : Go 1 a (uI (uI (uI a 3 (nI q)) 3 (nI (q + 1))) 4 5) := by
      refine Go.one h ha hpc h3 h9 (by rw [hsk]; exact ql) ?_
      rw [hsk, rs_behind (a := uI a 3 (nI q)) (by rw [eq]; decide) (by rcases h4 with e | ⟨e, _⟩; exact Or.inl e; exact Or.inr ⟨e, by rw [eq]; decide⟩)]
      unfold fX3_readBehindItem
      rw [if_pos (show nI (T q) = 44 by rw [eq]; rfl)]
      unfold fX3_pass
      simp only [Option.bind_some]
      rw [show sI (uI a 3 (nI q)) 3 + 1 = nI (q + 1) from by show nI q + 1 = _; rw [nI_1]]
    have fb : cfi a (uI (uI (uI a 3 (nI q)) 3 (nI (q + 1))) 4 5) := fa1.trans ((cfi_u (a := uI a 3 (nI q)) W (Or.inl rfl) _).trans (cfi_u (a := uI (uI a 3 (nI q)) 3 (nI (q + 1))) W (Or.inr (Or.inl rfl)) _))
    have b9 : sI (uI (uI (uI a 3 (nI q)) 3 (nI (q + 1))) 4 5) 9 = 0 := h9
    have bX : cB (uI (uI (uI a 3 (nI q)) 3 (nI (q + 1))) 4 5) 33 = mB (vI m 5 (nI (q + 1))) z := hX
    obtain ⟨m2, e1, e2, e3⟩ := item_both h (p := q + 1) (pc := q + 1) (z := z) (a := uI (uI (uI a 3 (nI q)) 3 (nI (q + 1))) 4 5) (m := vI m 5 (nI (q + 1))) fb.1 V (fb.tx ha) ⟨hm.1, hm.2⟩ (by omega) (by omega) rfl rfl b9 rfl h7 (Or.inl rfl) bX
    have fm2 : mfi z m m2 := (mfi_u V (Or.inl rfl) _).trans e2
    rw [e1]
    simp only [Option.bind_some]
    rcases e3 with ⟨kd, pl, r1, r2, rx, r3⟩ | ⟨n, a', p', pc', r1, r2, r3, r4, r5, r6, r7, r8, r9, r10, r11, r12, r13⟩
    · have nk : mI m2 7 ≠ 0 := by
        obtain ⟨_, _, _, _, _, _, hk, _⟩ := r3
        rw [r1]
        exact kd_ne hk
      obtain ⟨f', rfl⟩ : ∃ f', f = f' + 1 := ⟨f - 1, by omega⟩
      rw [fX8_braces_L38, if_neg nk, if_neg nk]
      exact ⟨m2, rfl, fm2, Or.inl ⟨kd, pl, r1, r2, rx, Err.step g (p' := q + 1) (by omega) fb.aeq r3⟩⟩
    · have s1 := sk_le T r6
      obtain ⟨m3, u1, u2, u3⟩ := ih (L - sk T L p') (by omega) f p' pc' a' m2 (by omega) (by omega) r2.1 e2.1 (r2.tx (fb.tx ha)) (fm2.tx hm) r8 r6 r9 r5 r3 r7 r12 r4 r11
      have gg := g.trans r1
      have ff := fb.trans r2
      refine ⟨m3, u1, fm2.trans u2, ?_⟩
      rcases u3 with ⟨kd, pl, w1, w2, wx, w3⟩ | ⟨n', a'', q', pc'', w1, w2, w3, w4, w5, w6, w7, w8, w9, w10, w11, w12, w13, w14⟩
      · exact Or.inl ⟨kd, pl, w1, w2, wx, Err.step gg (p' := pc') (by omega) ff.aeq w3⟩
      · exact Or.inr ⟨1 + n + n', a'', q', pc'', gg.trans w1, ff.trans w2, w3, w4, w5, w6, w7, w8, w9, w10, by omega, w12, w13, w14.trans r13⟩
  · rw [if_neg (show ¬ nI (ch T L q) = 44 from ch_ne (d := 44) hch (by decide) c44), if_pos m17]
    have ex := m_expects (e := 125) h hm1 (p := q) k2 rfl m17 (by decide)
    rw [hsi, vI_twice, vI_twice] at ex
    rw [show (125 : Int32) = nI 125 from rfl, ex, bind_sm]
    by_cases c125 : ch T L q = 125
    · rw [if_pos c125]
      have ql : q < L := by
        apply Classical.byContradiction
        intro z0
        rw [(ch_0 h q).mpr (by omega)] at c125
        exact absurd c125 (by decide)
      have eq : T q = 125 := by rw [← c125]; exact (if_pos ql).symm
      refine ⟨_, rfl, ?_, Or.inr ⟨0, a, q, pc, Go.refl a, cfi.refl W, h9, ?_, h3, hpc, hsk, ql, eq, rfl, by omega, hX, h7, rfl⟩⟩
      · exact mfi_u V (Or.inl rfl) _
      · rcases h4 with e | ⟨e, _⟩
        · exact Or.inl e
        · exact Or.inr (Or.inl e)
    · rw [if_neg c125]
      refine ⟨_, rfl, mfi_fail V q 1 q, Or.inl ⟨1, q, rfl, rfl, ⟨q, k2, rfl⟩, ?_⟩⟩
      by_cases ql : q < L
      · have eq : ch T L q = T q := if_pos ql
        rw [eq] at c44 c125 hch
        have g : Go 1 a (uI (uI (uI a 3 (nI q)) 9 1) 10 (nI q)) := by
          refine Go.one h ha hpc h3 h9 (by rw [hsk]; exact ql) ?_
          rw [hsk, rs_behind (a := uI a 3 (nI q)) hch (by rcases h4 with e | ⟨e, e'⟩; exact Or.inl e; exact Or.inr ⟨e, by rw [← eq]; exact e'⟩)]
          unfold fX3_readBehindItem
          rw [if_neg (show ¬ nI (T q) = 44 from ch_ne (d := 44) hch (by decide) c44), if_neg (show ¬ nI (T q) = 125 from ch_ne (d := 125) hch (by decide) c125)]
          rfl
        have fc : cfi a (uI (uI (uI a 3 (nI q)) 9 1) 10 (nI q)) := cfi_fail W q 1 q
        exact Err.step g (p' := q + 1) (by omega) fc.aeq (Err.fin fc.1 (by omega) (Or.inl rfl) (by omega) rfl rfl)
      · have eL : q = L := by omega
        rw [eL]
        exact Err.eot W hpc h9 n0 hpc h3 (by rw [hsk, eL])
theorem brace_both {T : Nat → Nat} {L q z : Nat} (h : TX T L) {a : cS} {m : mS} (W : Wf a) (V : Vm m) (ha : cTx T L a) (hm : mTx T L m) (hq : q < L) (hT : T q = 123) (h3 : sI a 3 = nI (q + 1)) (h4 : sI a 4 = 4) (h9 : sI a 9 = 0) (h33 : cB a 33 = fun _ => false) (h5 : mI m 5 = nI q) (h7 : mI m 7 = 0) : ∃ m', fX8_braces z m = some m' ∧ mfi z m m' ∧ ((∃ kd pl, mI m' 7 = nI kd ∧ mI m' 8 = nI pl ∧ AtM L m' ∧ Err T L a (q + 1) kd pl) ∨ Bd T L a m m' z (q + 1)) := by
  have hL := h.1
  unfold fX8_braces
  obtain ⟨m1, e1, e2, e3, e4⟩ := m_joins z z 2 z V
  rw [jn2_self] at e3
  have fm1 : mfi z m m1 := ⟨e2, fun r hr => by rw [e3]; exact zu_ne _ hr _, fun k _ _ _ => mI_eq e4 k, mT_eq e4⟩
  have x1 : mB m1 z = fun _ => false := by rw [e3]; exact zu_at _ _ _
  have hm1 := fm1.tx hm
  have sq : sk T L q = q := by rw [sk_lt T hq, hT, if_neg (by decide)]
  have ex := m_expects (e := 123) h hm1 (p := q) (by omega) ((mI_eq e4 5).trans h5) ((mI_eq e4 7).trans h7) (by decide)
  rw [sq, show ch T L q = 123 from (if_pos hq).trans hT, if_pos rfl] at ex
  rw [e1]
  simp only [Option.bind_some]
  rw [show (123 : Int32) = nI 123 from rfl, ex]
  simp only [Option.bind_some]
  have hm2 : mTx T L (vI m1 5 (nI (q + 1))) := ⟨hm1.1, hm1.2⟩
  have l1 : q + 1 ≤ L := by omega
  obtain ⟨k1, k2⟩ := sk_le T l1
  have hmb := m_blanks h hm2 l1 rfl
  rw [vI_twice] at hmb
  rw [hmb]
  simp only [Option.bind_some]
  have hsi := sk_sk T l1
  have hch := ch_lt h (sk T L (q + 1))
  generalize hq1 : sk T L (q + 1) = q1 at *
  have fm2 : mfi z m (vI m1 5 (nI q1)) := fm1.trans (mfi_u e2 (Or.inl rfl) _)
  have hX : cB a 33 = mB (vI m1 5 (nI q1)) z := h33.trans x1.symm
  have m27 : mI (vI m1 5 (nI q1)) 7 = 0 := (mI_eq e4 7).trans h7
  by_cases c125 : ch T L q1 = 125
  · have ql : q1 < L := by
      apply Classical.byContradiction
      intro z0
      rw [(ch_0 h q1).mpr (by omega)] at c125
      exact absurd c125 (by decide)
    have eq : T q1 = 125 := by rw [← c125]; exact (if_pos ql).symm
    rw [if_pos (show nI (ch T L q1) = 125 by rw [c125]; rfl), show mI (vI m1 5 (nI q1)) 5 + 1 = nI (q1 + 1) from by show nI q1 + 1 = _; rw [nI_1]]
    exact ⟨_, rfl, fm2.trans (mfi_u (m := vI m1 5 (nI q1)) e2 (Or.inl rfl) _), Or.inr ⟨0, a, q1, q + 1, Go.refl a, cfi.refl W, h9, Or.inr (Or.inr h4), h3, l1, hq1, ql, eq, rfl, by omega, hX, m27, mI_eq e4 8⟩⟩
  · rw [if_neg (show ¬ nI (ch T L q1) = 125 from ch_ne (d := 125) hch (by decide) c125)]
    obtain ⟨m3, r1, r2, r3⟩ := item_both h (p := q1) (pc := q + 1) (z := z) (a := a) (m := vI m1 5 (nI q1)) W e2 ha ⟨hm1.1, hm1.2⟩ k2 l1 (by rw [hq1, hsi]) h3 h9 rfl m27 (Or.inr ⟨h4, by rw [hsi]; exact c125⟩) hX
    have fm3 := fm2.trans r2
    rw [r1]
    simp only [Option.bind_some]
    rcases r3 with ⟨kd, pl, w1, w2, wx, w3⟩ | ⟨n, a', p', pc', w1, w2, w3, w4, w5, w6, w7, w8, w9, w10, w11, w12, w13⟩
    · have nk : mI m3 7 ≠ 0 := by
        obtain ⟨_, _, _, _, _, _, hk, _⟩ := w3
        rw [w1]
        exact kd_ne hk
      rw [fX8_braces_L38, if_neg nk, if_neg nk]
      exact ⟨m3, rfl, fm3, Or.inl ⟨kd, pl, w1, w2, wx, w3⟩⟩
    · have s1 := sk_le T w8
      obtain ⟨m4, u1, u2, u3⟩ := brace_L h (z := z) (L - sk T L p') 1100 p' pc' a' m3 (by omega) (by omega) w2.1 r2.1 (w2.tx ha) (fm3.tx hm) w8 w6 w9 w5 w3 w7 w12 w4 w11
      refine ⟨m4, u1, fm3.trans u2, ?_⟩
      rcases u3 with ⟨kd, pl, v1, v2, vx, v3⟩ | ⟨n', a'', q', pc'', v1, v2, v3, v4, v5, v6, v7, v8, v9, v10, v11, v12, v13, v14⟩
      · exact Or.inl ⟨kd, pl, v1, v2, vx, Err.step w1 (p' := pc') w10 w2.aeq v3⟩
      · exact Or.inr ⟨n + n', a'', q', pc'', w1.trans v1, w2.trans v2, v3, v4, v5, v6, v7, v8, v9, v10, by omega, v12, v13, v14.trans (w13.trans (mI_eq e4 8))⟩
