/-! ===== reading: factors, parts, sums ===== -/
def cfo (o : Nat) (a a' : cS) : Prop := Wf a' ∧ (∀ n, n < 33 → cB a' n = cB a n) ∧ (∀ i, i < o → cB a' (34 + i) = cB a (34 + i) ∧ cB a' (43 + i) = cB a (43 + i) ∧ sI a' (11 + 2 * i) = sI a (11 + 2 * i) ∧ sI a' (12 + 2 * i) = sI a (12 + 2 * i)) ∧ (∀ k, k = 0 ∨ k = 1 ∨ k = 2 ∨ k = 6 ∨ k = 8 → sI a' k = sI a k) ∧ sT a' = sT a ∧ (sI a' 9 = 0 → sI a 9 = 0 ∧ sI a' 10 = sI a 10)
theorem cfo.trans {o : Nat} {a b c : cS} (h : cfo o a b) (g : cfo o b c) : cfo o a c := ⟨g.1, fun n hn => (g.2.1 n hn).trans (h.2.1 n hn), fun i hi => ⟨((g.2.2.1 i hi).1).trans (h.2.2.1 i hi).1, ((g.2.2.1 i hi).2.1).trans (h.2.2.1 i hi).2.1, ((g.2.2.1 i hi).2.2.1).trans (h.2.2.1 i hi).2.2.1, ((g.2.2.1 i hi).2.2.2).trans (h.2.2.1 i hi).2.2.2⟩, fun k hk => (g.2.2.2.1 k hk).trans (h.2.2.2.1 k hk), g.2.2.2.2.1.trans h.2.2.2.2.1, fun z => ⟨(h.2.2.2.2.2 (g.2.2.2.2.2 z).1).1, (g.2.2.2.2.2 z).2.trans (h.2.2.2.2.2 (g.2.2.2.2.2 z).1).2⟩⟩
theorem cfo.of {o : Nat} {a a' : cS} (W : Wf a') (ho : o ≤ 9) (h1 : ∀ n, n ≠ 33 → n < 43 + o → n < 34 ∨ n < 34 + o ∨ 43 ≤ n → cB a' n = cB a n) (h2 : ∀ k, k ≠ 3 → k ≠ 4 → k ≠ 5 → k ≠ 7 → k < 11 + 2 * o → sI a' k = sI a k) (h3 : sT a' = sT a) : cfo o a a' :=
  ⟨W, fun n hn => h1 n (by omega) (by omega) (by omega), fun i hi => ⟨h1 _ (by omega) (by omega) (by omega), h1 _ (by omega) (by omega) (by omega), h2 _ (by omega) (by omega) (by omega) (by omega) (by omega), h2 _ (by omega) (by omega) (by omega) (by omega) (by omega)⟩, fun k hk => h2 k (by omega) (by omega) (by omega) (by omega) (by omega), h3, fun z => ⟨(h2 9 (by omega) (by omega) (by omega) (by omega) (by omega)).symm.trans z, h2 10 (by omega) (by omega) (by omega) (by omega) (by omega)⟩⟩
theorem cfo.aeq {o : Nat} {a a' : cS} (h : cfo o a a') : aeq a a' := ⟨fun n hn => h.2.1 n (by omega), h.2.2.2.1 0 (by omega), h.2.2.2.1 2 (by omega), h.2.2.2.2.1⟩
theorem cfo.tx {T : Nat → Nat} {L o : Nat} {a a' : cS} (h : cfo o a a') (ha : cTx T L a) : cTx T L a' := ⟨(h.2.2.2.1 2 (by omega)).trans ha.1, fun k hk => by rw [h.2.2.2.2.1]; exact ha.2 k hk⟩
theorem cfi.cfo {a a' : cS} (h : cfi a a') {o : Nat} (ho : o ≤ 9) : cfo o a a' := ⟨h.1, fun n hn => h.2.1 n (by omega), fun i hi => ⟨h.2.1 _ (by omega), h.2.1 _ (by omega), h.2.2.1 _ (by omega) (by omega) (by omega) (by omega) (by omega), h.2.2.1 _ (by omega) (by omega) (by omega) (by omega) (by omega)⟩, fun k hk => h.2.2.1 k (by omega) (by omega) (by omega) (by omega) (by omega), h.2.2.2⟩
def mfo (hh : Nat) (m m' : mS) : Prop := Vm m' ∧ (∀ r, r < 24 + hh → mB m' r = mB m r) ∧ (∀ k, k = 0 ∨ k = 1 ∨ k = 2 ∨ k = 3 → mI m' k = mI m k) ∧ mT m' = mT m
theorem mfo.trans {hh : Nat} {a b c : mS} (h : mfo hh a b) (g : mfo hh b c) : mfo hh a c := ⟨g.1, fun n hn => (g.2.1 n hn).trans (h.2.1 n hn), fun k hk => (g.2.2.1 k hk).trans (h.2.2.1 k hk), g.2.2.2.trans h.2.2.2⟩
theorem mfo.tx {T : Nat → Nat} {L hh : Nat} {m m' : mS} (h : mfo hh m m') (hm : mTx T L m) : mTx T L m' := ⟨(h.2.2.1 3 (by omega)).trans hm.1, fun k hk => by rw [h.2.2.2]; exact hm.2 k hk⟩
theorem mfo.less {hh k : Nat} {m m' : mS} (h : mfo hh m m') (hk : k ≤ hh) : mfo k m m' := ⟨h.1, fun r hr => h.2.1 r (by omega), h.2.2.1, h.2.2.2⟩
theorem mfi.mfo {z hh : Nat} {m m' : mS} (h : mfi z m m') (hz : 24 + hh ≤ z) : mfo hh m m' := ⟨h.1, fun r hr => h.2.1 r (by omega), fun k hk => h.2.2.1 k (by omega) (by omega) (by omega), h.2.2.2⟩
theorem mfo_u {m : mS} (V : Vm m) {k : Nat} (hk : 4 ≤ k) (v : Int32) (hh : Nat) : mfo hh m (vI m k v) := ⟨V, fun _ _ => rfl, fun j hj => if_neg (by omega), rfl⟩
theorem vin9 {i : Nat} (h : i < 9) : vin (nI i) 9 = true := vinI h (by decide)
theorem cl9 {i : Nat} (h : i < 9) : (nI i).toNatClampNeg = i := nI_clamp (by omega)
theorem p_use {o x : Nat} {s : cS} (W : Wf s) (hI : sI s 5 = nI o) (ho : o ≤ 8) (hb : sI s (12 + 2 * o) = 0 ∨ sI s (12 + 2 * o) = 1) (hx : x ≠ 43 + o) : ∃ s', fX3_useFactor x s = some s' ∧ Wf s' ∧ (∀ n, n ≠ 43 + o → cB s' n = cB s n) ∧ cB s' (43 + o) = (if sI s (12 + 2 * o) = 0 then cB s x else jn 1 (cB s (43 + o)) (cB s x)) ∧ (∀ k, k ≠ 12 + 2 * o → sI s' k = sI s k) ∧ sI s' (12 + 2 * o) = 1 ∧ sT s' = sT s := by
  unfold fX3_useFactor
  rw [hI]
  simp only [vin9 (show o < 9 by omega), cl9 (show o < 9 by omega), if_true]
  rcases hb with b | b
  · rw [b, if_pos rfl]
    obtain ⟨s1, e1, e2, e3⟩ := p_become (43 + o) x s
    have h5 : sI s1 5 = nI o := (sI_eq e3 5).trans hI
    rw [e1]
    simp only [Option.bind_some]
    rw [h5]
    simp only [vin9 (show o < 9 by omega), cl9 (show o < 9 by omega), if_true, nb_1]
    refine ⟨_, rfl, Wf_up W (W x) e2, fun n hn => ?_, ?_, fun k hk => ?_, ?_, (sT_eq (s' := s1) e3)⟩
    · rw [cB_uI, e2]; exact zu_ne _ hn _
    · rw [cB_uI, e2]; exact zu_at _ _ _
    · rw [sI_ne _ hk]; exact sI_eq e3 k
    · rw [sI_at]; rfl
  · rw [b, if_neg (by decide)]
    obtain ⟨s1, e1, e2, e3⟩ := p_combine (43 + o) 1 x s
    rw [e1]
    simp only [Option.bind_some]
    refine ⟨s1, rfl, Wf_up W (jn_wf (W _) (W x)) e2, fun n hn => ?_, ?_, fun k _ => sI_eq e3 k, (sI_eq e3 _).trans b, sT_eq e3⟩
    · rw [e2]; exact zu_ne _ hn _
    · rw [e2, if_neg (by decide)]; exact zu_at _ _ _
theorem p_end {o : Nat} (x : Int32) {s : cS} (W : Wf s) (hI : sI s 5 = nI o) (ho : o ≤ 8) : ∃ s', fX3_endPart x s = some s' ∧ Wf s' ∧ (∀ n, n ≠ 34 + o → cB s' n = cB s n) ∧ cB s' (34 + o) = jn (sI s (11 + 2 * o)) (cB s (34 + o)) (cB s (43 + o)) ∧ (∀ k, k ≠ 11 + 2 * o → k ≠ 12 + 2 * o → sI s' k = sI s k) ∧ sI s' (11 + 2 * o) = x ∧ sI s' (12 + 2 * o) = 0 ∧ sT s' = sT s := by
  unfold fX3_endPart
  rw [hI]
  simp only [vin9 (show o < 9 by omega), cl9 (show o < 9 by omega), if_true]
  obtain ⟨s1, e1, e2, e3⟩ := p_combine (34 + o) (sI s (11 + 2 * o)) (43 + o) s
  have h5 : sI s1 5 = nI o := (sI_eq e3 5).trans hI
  rw [e1]
  simp only [Option.bind_some]
  rw [h5]
  have h5' : sI (uI s1 (11 + 2 * o) x) 5 = nI o := by rw [sI_ne _ (by omega)]; exact h5
  simp only [vin9 (show o < 9 by omega), cl9 (show o < 9 by omega), if_true, h5', nb_0]
  refine ⟨_, rfl, Wf_up W (jn_wf (W _) (W _)) e2, fun n hn => ?_, ?_, fun k h1 h2 => ?_, ?_, ?_, (sT_eq (s' := s1) e3)⟩
  · rw [cB_uI, cB_uI, e2]; exact zu_ne _ hn _
  · rw [cB_uI, cB_uI, e2]; exact zu_at _ _ _
  · rw [sI_ne _ h2, sI_ne _ h1]; exact sI_eq e3 k
  · rw [sI_ne _ (by omega), sI_at]
  · rw [sI_at]; rfl
theorem p_begin {o : Nat} {s : cS} (W : Wf s) (hI : sI s 5 = nI o) (ho : o ≤ 8) : ∃ s', fX3_beginSum s = some s' ∧ Wf s' ∧ (∀ n, n ≠ 34 + o → cB s' n = cB s n) ∧ cB s' (34 + o) = (fun _ => false) ∧ (∀ k, k ≠ 11 + 2 * o → k ≠ 12 + 2 * o → sI s' k = sI s k) ∧ sI s' (11 + 2 * o) = 0 ∧ sI s' (12 + 2 * o) = 0 ∧ sT s' = sT s := by
  unfold fX3_beginSum
  rw [hI]
  simp only [vin9 (show o < 9 by omega), cl9 (show o < 9 by omega), if_true]
  obtain ⟨s1, e1, e2, e3⟩ := p_empty (34 + o) s
  have h5 : sI s1 5 = nI o := (sI_eq e3 5).trans hI
  rw [e1]
  simp only [Option.bind_some]
  rw [h5]
  have h5' : sI (uI s1 (11 + 2 * o) 0) 5 = nI o := by rw [sI_ne _ (by omega)]; exact h5
  simp only [vin9 (show o < 9 by omega), cl9 (show o < 9 by omega), if_true, h5', nb_0]
  refine ⟨_, rfl, Wf_up W wf_0 e2, fun n hn => ?_, ?_, fun k h1 h2 => ?_, ?_, ?_, (sT_eq (s' := s1) e3)⟩
  · rw [cB_uI, cB_uI, e2]; exact zu_ne _ hn _
  · rw [cB_uI, cB_uI, e2]; exact zu_at _ _ _
  · rw [sI_ne _ h2, sI_ne _ h1]; exact sI_eq e3 k
  · rw [sI_ne _ (by omega), sI_at]
  · rw [sI_at]; rfl
theorem c_pass {p : Nat} {s : cS} (st : Int32) (h3 : sI s 3 = nI p) : fX3_pass st s = some (uI (uI s 3 (nI (p + 1))) 4 st) := by
  unfold fX3_pass
  rw [h3, nI_1]
/-- what both sides have ahead of a factor, of a part, of a sum -/
def PreB (T : Nat → Nat) (L : Nat) (v : Bool) (o : Nat) (a : cS) (m : mS) (p hh : Nat) : Prop := Wf a ∧ Vm m ∧ cTx T L a ∧ mTx T L m ∧ (v = true → ∀ i, i < 8 → cB a (25 + i) = mB m i) ∧ p ≤ L ∧ sI a 3 = nI p ∧ sI a 4 = 2 ∧ sI a 5 = nI o ∧ o ≤ 8 ∧ sI a 9 = 0 ∧ mI m 5 = nI p ∧ mI m 4 = nI hh ∧ mI m 6 = nI o ∧ mI m 7 = 0
def ErrS (T : Nat → Nat) (L : Nat) (a : cS) (m' : mS) (p : Nat) : Prop := ∃ kd pl, mI m' 7 = nI kd ∧ mI m' 8 = nI pl ∧ AtM L m' ∧ Err T L a p kd pl
/-- what both sides have behind it; x: what the class's row must be, by the reference's -/
def Ok (T : Nat → Nat) (L : Nat) (o : Nat) (a : cS) (m m' : mS) (p hh : Nat) (Q : cS → Nat → Prop) : Prop := ∃ n a' p', Go n a a' ∧ cfo o a a' ∧ sI a' 3 = nI p' ∧ p' ≤ L ∧ n + p ≤ p' ∧ p < p' ∧ sI a' 4 = 3 ∧ sI a' 5 = nI o ∧ sI a' 9 = 0 ∧ mI m' 4 = nI (hh + 1) ∧ mI m' 6 = nI o ∧ mI m' 7 = 0 ∧ mI m' 8 = mI m 8 ∧ sI a' (12 + 2 * o) = 1 ∧ Q a' p'
def QF (v : Bool) (o : Nat) (a : cS) (m' : mS) (hh : Nat) : cS → Nat → Prop := fun a' p' => mI m' 5 = nI p' ∧ cB a' (34 + o) = cB a (34 + o) ∧ sI a' (11 + 2 * o) = sI a (11 + 2 * o) ∧ (v = true → cB a' (43 + o) = if sI a (12 + 2 * o) = 0 then mB m' (24 + hh) else jn 1 (cB a (43 + o)) (mB m' (24 + hh)))
def QP (T : Nat → Nat) (L : Nat) (v : Bool) (o : Nat) (a : cS) (m' : mS) (hh : Nat) : cS → Nat → Prop := fun a' p' => mI m' 5 = nI (sk T L p') ∧ ch T L (sk T L p') ≠ 38 ∧ cB a' (34 + o) = cB a (34 + o) ∧ sI a' (11 + 2 * o) = sI a (11 + 2 * o) ∧ (v = true → cB a' (43 + o) = mB m' (24 + hh))
def QS (T : Nat → Nat) (L : Nat) (v : Bool) (o : Nat) (m' : mS) (hh : Nat) : cS → Nat → Prop := fun a' p' => mI m' 5 = nI (sk T L p') ∧ ch T L (sk T L p') ≠ 38 ∧ ch T L (sk T L p') ≠ 124 ∧ ch T L (sk T L p') ≠ 45 ∧ ch T L (sk T L p') ≠ 94 ∧ (v = true → jn (sI a' (11 + 2 * o)) (cB a' (34 + o)) (cB a' (43 + o)) = mB m' (24 + hh))
def SumOK (T : Nat → Nat) (L : Nat) (v : Bool) (o : Nat) (S : mS → Option mS) : Prop := ∀ (a : cS) (m : mS) (p hh : Nat), PreB T L v o a m p hh → hh ≤ 2 * o → cB a (34 + o) = (fun _ => false) → sI a (11 + 2 * o) = 0 → sI a (12 + 2 * o) = 0 → ∃ m', S m = some m' ∧ mfo hh m m' ∧ (ErrS T L a m' p ∨ Ok T L o a m m' p hh (QS T L v o m' hh))
def FacOK (T : Nat → Nat) (L : Nat) (v : Bool) (o : Nat) (S : mS → Option mS) : Prop := ∀ (a : cS) (m : mS) (p hh : Nat), PreB T L v o a m p hh → hh ≤ 2 * o + 2 → (sI a (12 + 2 * o) = 0 ∨ sI a (12 + 2 * o) = 1) → ∃ m', S m = some m' ∧ mfo hh m m' ∧ (ErrS T L a m' p ∨ Ok T L o a m m' p hh (QF v o a m' hh))
def ParOK (T : Nat → Nat) (L : Nat) (v : Bool) (o : Nat) (S : mS → Option mS) : Prop := ∀ (a : cS) (m : mS) (p hh : Nat), PreB T L v o a m p hh → hh ≤ 2 * o + 1 → sI a (12 + 2 * o) = 0 → ∃ m', S m = some m' ∧ mfo hh m m' ∧ (ErrS T L a m' p ∨ Ok T L o a m m' p hh (QP T L v o a m' hh))
theorem rs_2 (x : Int32) {a : cS} (h4 : sI a 4 = 2) : fX3_readSign x a = fX3_readFactor x a := by
  unfold fX3_readSign
  rw [h4]
  simp only [bind_sm]
  rfl
theorem rs_3 (x : Int32) {a : cS} (h4 : sI a 4 = 3) : fX3_readSign x a = fX3_readBehindFactor x a := by
  unfold fX3_readSign
  rw [h4]
  simp only [bind_sm]
  rfl
theorem rs_brace {a : cS} (h4 : sI a 4 = 8 ∨ sI a 4 = 6 ∨ sI a 4 = 4) : fX3_readSign 125 a = (fX3_useFactor 33 a).bind (fun s2 => (fX3_pass (3 : Int32) s2).bind (fun s3 => some (s3))) := by
  rcases h4 with h4 | h4 | h4
  · rw [rs_8 _ h4]
    unfold fX3_readBehindItem
    rw [if_neg (by decide), if_pos rfl]
  · rw [rs_6 _ h4]
    unfold fX3_readBehindNumber fX3_readBehindItem
    rw [if_neg (by decide), if_neg (by decide), if_pos rfl, bind_sm]
  · unfold fX3_readSign
    rw [h4]
    simp only [bind_sm]
    unfold fX3_readFirstItem
    rfl
theorem isName_in (p : Int32) (s : cS) (m : mS) : fX3_isName p s = fX8_in p 97 104 m := rfl
theorem m_in {c lo hi : Nat} (hc : c < 256) (hl : lo < 256) (hh : hi < 256) (m : mS) : fX8_in (nI c) (nI lo) (nI hi) m = bi (decide (lo ≤ c ∧ c ≤ hi)) := by
  unfold fX8_in
  by_cases a : c < lo
  · rw [if_pos (nI_lt a (by omega)), decide_eq_false (by omega)]
    rfl
  · rw [if_neg (nI_nlt (by omega) (by omega))]
    by_cases b : hi < c
    · rw [if_pos (nI_lt b (by omega)), decide_eq_false (by omega)]
      rfl
    · rw [if_neg (nI_nlt (by omega) (by omega)), decide_eq_true (by omega)]
      rfl
theorem vin40 {i : Nat} (h : i < 40) : vin (nI i) 40 = true := vinI h (by decide)
theorem cl40 {i : Nat} (h : i < 40) : (nI i).toNatClampNeg = i := nI_clamp (by omega)
