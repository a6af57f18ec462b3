/-! ===== the text ===== -/
def byt (x : Int64) (k : Nat) : Nat := x.toBitVec.toNat / 2 ^ (8 * k) % 256
theorem byt_lt (x : Int64) (k : Nat) : byt x k < 256 := Nat.mod_lt _ (by decide)
theorem byte_c (x : Int64) {k : Nat} (hk : k < 8) : (x.toUInt64 >>> ((nI (8 * k)).toInt64.toUInt64 &&& Int64.toUInt64 63)).toInt64 &&& 255 = lN (byt x k) := by
  have ex : x = lN x.toBitVec.toNat := wb_inj (by rw [wb_tb]; simp)
  have hn : x.toBitVec.toNat < 2 ^ 64 := x.toBitVec.isLt
  unfold byt
  generalize x.toBitVec.toNat = n at ex hn ⊢
  rw [ex, wb_shr hn (by omega)]
  exact wb_mask (k := 8) (Nat.lt_of_le_of_lt (Nat.div_le_self _ _) hn) (by decide)
theorem sar_amt : ∀ k, k < 8 → (((8 * nI k).toInt64 &&& 63).toBitVec.smod 64).toNat = 8 * k := by decide +kernel
theorem sar_amt2 : ∀ k, k < 8 → ((UInt64.ofNat (8 * k)).toBitVec % 64).toNat = 8 * k := by decide +kernel
theorem b255 : ∀ i, i < 64 → (255 : Int64).toBitVec.getLsbD i = decide (i < 8) := by decide +kernel
theorem byte_m (x : Int64) {k : Nat} (hk : k < 8) : (x >>> ((8 * nI k).toInt64 &&& 63)) &&& 255 = lN (byt x k) := by
  rw [← byte_c x hk]
  apply Int64.toBitVec_inj.mp
  apply BitVec.eq_of_getLsbD_eq
  intro i hi
  rw [Int64.toBitVec_and, Int64.toBitVec_and, BitVec.getLsbD_and, BitVec.getLsbD_and, b255 i hi]
  by_cases c : i < 8
  · rw [decide_eq_true c, Bool.and_true, Bool.and_true]
    show (x.toBitVec.sshiftRight (((8 * nI k).toInt64 &&& 63).toBitVec.smod 64).toNat).getLsbD i = (x.toUInt64 >>> ((nI (8 * k)).toInt64.toUInt64 &&& Int64.toUInt64 63)).toBitVec.getLsbD i
    rw [sar_amt k hk, BitVec.getLsbD_sshiftRight, wb_cu (8 * k) (by omega), if_pos (by omega), decide_eq_false (by omega)]
    show (true && x.toBitVec.getLsbD (8 * k + i)) = (x.toBitVec >>> ((UInt64.ofNat (8 * k)).toBitVec % 64)).getLsbD i
    have e := sar_amt2 k hk
    rw [BitVec.ushiftRight_eq', BitVec.getLsbD_ushiftRight, e, Bool.true_and]
  · rw [decide_eq_false c, Bool.and_false, Bool.and_false]
theorem lN_eq0 {n : Nat} (h : n < 256) : lg_cmp (lN n) 0 = 0 ↔ n = 0 := by
  rw [lg_cmp_eq]
  exact lN_eq (b := 0) (by omega) (by decide)
theorem x4_j : ∀ i, i < 8 → nI (8 * (i + 1)) + (-8) = nI (8 * i) := by decide +kernel
def nzb (x : Int64) (k : Nat) : Bool := decide (byt x k ≠ 0)
theorem p_app_ct (x : Int64) (k0 : Int32 → cS → Option (Int32 × cS)) (s : cS) : ∀ (j fuel A : Nat), j ≤ 8 → j < fuel → fX4_append_L6 x k0 fuel (nI A) (nI (8 * j) + (-8)) s = k0 (nI (A + fb_ct (nzb x) j)) s := by
  intro j
  induction j with
  | zero =>
    intro fuel A hj hf
    obtain ⟨f, rfl⟩ : ∃ f, fuel = f + 1 := ⟨fuel - 1, by omega⟩
    rw [fX4_append_L6, if_pos (by decide)]
    rfl
  | succ i ih =>
    intro fuel A hj hf
    obtain ⟨f, rfl⟩ : ∃ f, fuel = f + 1 := ⟨fuel - 1, by omega⟩
    rw [fX4_append_L6, x4_j i (by omega), if_neg (nI_pos (by omega)), byte_c x (show i < 8 by omega), nI_1]
    have e := lN_eq0 (byt_lt x i)
    rw [ct_succ]
    by_cases c : byt x i = 0
    · rw [if_pos (e.mpr c), show nzb x i = false from decide_eq_false (fun z => z c), if_neg (fun z => Bool.noConfusion z)]
      exact ih f A (by omega) (by omega)
    · rw [if_neg (fun z => c (e.mp z)), show nzb x i = true from decide_eq_true c, if_pos rfl, ih f (A + 1) (by omega) (by omega)]
      rw [show A + 1 + fb_ct (nzb x) i = A + (fb_ct (nzb x) i + 1) from by omega]
theorem m_type_ct (x : Int64) (k0 : Int32 → mS → Option (Int32 × mS)) (m : mS) : ∀ (d fuel k : Nat), k + d = 8 → d < fuel → fX8_type_L5 x k0 fuel (nI (fb_ct (nzb x) k)) (nI k) m = k0 (nI (fb_ct (nzb x) 8)) m := by
  intro d
  induction d with
  | zero =>
    intro fuel k h hf
    obtain ⟨f, rfl⟩ : ∃ f, fuel = f + 1 := ⟨fuel - 1, by omega⟩
    have : k = 8 := by omega
    subst this
    rw [fX8_type_L5, if_pos (show (8 : Int32) ≤ nI 8 from by decide)]
  | succ d ih =>
    intro fuel k h hf
    obtain ⟨f, rfl⟩ : ∃ f, fuel = f + 1 := ⟨fuel - 1, by omega⟩
    have hk : k < 8 := by omega
    rw [fX8_type_L5, if_neg (ge_8 hk), byte_m x hk, nI_1, nI_1, Int32.add_zero]
    have e := lN_eq0 (byt_lt x k)
    have := ih f (k + 1) (by omega) (by omega)
    rw [ct_succ] at this
    by_cases c : byt x k = 0
    · rw [show nzb x k = false from decide_eq_false (fun z => z c), if_neg (fun z => Bool.noConfusion z)] at this
      rw [if_pos (e.mpr c)]
      exact this
    · rw [show nzb x k = true from decide_eq_true c, if_pos rfl] at this
      rw [if_neg (fun z => c (e.mp z))]
      exact this
theorem ch_b : ∀ b, b < 256 → vp_nar .char (((nI b).toUInt32 % 65536).toInt32) = nI b := by decide +kernel
theorem vin200 {i : Nat} (h : i < 200) : vin (nI i) 200 = true := vinI h (by decide)
theorem cl200 {i : Nat} (h : i < 200) : (nI i).toNatClampNeg = i := nI_clamp (by omega)
theorem p_appendByte {b L : Nat} (hb : b < 256) (h0 : b ≠ 0) (hL : L < 200) {s : cS} (hI : sI s 2 = nI L) : fX4_appendByte (nI b) s = some (uI (uT s L (nI b)) 2 (nI (L + 1))) := by
  unfold fX4_appendByte
  have e : sI (uT s L (nI b)) 2 = nI L := hI
  rw [if_neg (fun z => h0 ((nI_eq0 (by omega)).mp z)), hI, if_neg (show ¬ (200 : Int32) ≤ nI L from nI_ge (b := 200) hL (by decide)), if_pos (vin200 hL), cl200 hL, ch_b b hb, e, nI_1]
theorem p_append0 (s : cS) : fX4_appendByte (nI 0) s = some s := rfl
/-- one more byte on both sides -/
theorem Rel_byte {a : cS} {m : mS} (h : Rel a m) {L b : Nat} (hL : L < 200) (h0 : b ≠ 0) (hb : b < 256) (t1 : sI a 2 = nI L) (t2 : mI m 3 = nI L) : Rel (uI (uT a L (nI b)) 2 (nI (L + 1))) (vI (vT m L (nI b)) 3 (nI (L + 1))) := by
  obtain ⟨W, V, hs, ⟨c, hc, f1, f2, f3⟩, ⟨L', hL', s1, s2, s3⟩⟩ := h
  have e : L' = L := by
    have := s1.symm.trans t1
    exact (nI_eq (by omega) (by omega)).mp this
  subst e
  refine ⟨W, V, hs, ⟨c, hc, f1, f2, f3⟩, ⟨L' + 1, by omega, rfl, rfl, fun k hk => ?_⟩⟩
  by_cases q : k = L'
  · subst q
    exact ⟨b, by omega, hb, if_pos rfl, pk_us⟩
  · obtain ⟨b', g1, g2, g3, g4⟩ := s3 k (by omega)
    exact ⟨b', g1, g2, (if_neg q).trans g3, (pk_un q).trans g4⟩
theorem m1_j : ∀ i, i < 8 → nI (i + 1) + (-1) = nI i := by decide +kernel
theorem app_L (x : Int64) : ∀ (j fuel L : Nat) (a : cS) (m : mS), j ≤ 8 → j < fuel → Rel a m → sI a 2 = nI L → mI m 3 = nI L → L + fb_ct (nzb x) j ≤ 200 → ∃ a' m', fX4_append_L51 x fuel (nI (8 * j) + (-8)) a = some (1, a') ∧ fX8_type_L73 x fuel (nI j + (-1)) m = some (nI (L + fb_ct (nzb x) j), m') ∧ Rel a' m' ∧ sI a' 2 = nI (L + fb_ct (nzb x) j) ∧ mI m' 0 = mI m 0 := by
  intro j
  induction j with
  | zero =>
    intro fuel L a m hj hf hR t1 t2 hl
    obtain ⟨f, rfl⟩ : ∃ f, fuel = f + 1 := ⟨fuel - 1, by omega⟩
    rw [fX4_append_L51, if_pos (by decide), fX8_type_L73, if_pos (by decide), t2]
    exact ⟨a, m, rfl, rfl, hR, t1, rfl⟩
  | succ i ih =>
    intro fuel L a m hj hf hR t1 t2 hl
    obtain ⟨f, rfl⟩ : ∃ f, fuel = f + 1 := ⟨fuel - 1, by omega⟩
    have hi : i < 8 := by omega
    rw [fX4_append_L51, x4_j i hi, if_neg (nI_pos (by omega)), byte_c x hi, fX8_type_L73, m1_j i hi, if_neg (nI_pos (by omega)), byte_m x hi, lN_i]
    rw [ct_succ] at hl ⊢
    by_cases c : byt x i = 0
    · have en : nzb x i = false := decide_eq_false (fun z => z c)
      simp only [en, Bool.false_eq_true, if_false] at hl ⊢
      rw [c, p_append0, if_pos (show nI 0 = 0 from rfl)]
      exact ih f L a m (by omega) (by omega) hR t1 t2 hl
    · have en : nzb x i = true := decide_eq_true c
      simp only [en, if_true] at hl ⊢
      have hL : L < 200 := by omega
      rw [p_appendByte (byt_lt x i) c hL t1, if_neg (fun z => c ((nI_eq0 (by have := byt_lt x i; omega)).mp z)), t2, if_pos (vin200 hL), cl200 hL]
      have e : mI (vT m L (nI (byt x i))) 3 = nI L := t2
      rw [e, nI_1]
      obtain ⟨a', m', r1, r2, r3, r4, r5⟩ := ih f (L + 1) _ _ (by omega) (by omega) (Rel_byte hR hL c (byt_lt x i) t1 t2) rfl rfl (by omega)
      rw [show L + (fb_ct (nzb x) i + 1) = L + 1 + fb_ct (nzb x) i from by omega]
      exact ⟨a', m', r1, r2, r3, r4, r5⟩
theorem g_type {a : cS} {m : mS} (h : Rel a m) (x : Int64) : Meets 4 4 (fX7_type x a) (fX8_type x m) := by
  obtain ⟨L, hL, t1, t2, t3⟩ := h.2.2.2.2
  have N8 : fb_ct (nzb x) 8 ≤ 8 := fb_ct_le _ 8
  unfold fX7_type fX4_append fX8_type
  have A := p_app_ct x (fun y3_1 s1 => if ((sI s1 2) + y3_1) ≤ 200 then (fX4_append_L51 x 1100 (56 : Int32) s1) else (some ((0, s1)))) a 8 1100 0 (by decide) (by decide)
  have B := m_type_ct x (fun y3_1 s1 => if 200 < ((mI s1 3) + y3_1) then ((fX8_passes (0 : Int32) (1 : Int32) s1).bind (fun (r2, s2) => if r2 = 0 then (some ((0, s2))) else (fX8_type_L73 x 1100 (7 : Int32) s2))) else ((fX8_passes (1 : Int32) (1 : Int32) s1).bind (fun (r4, s4) => if r4 = 0 then (some ((0, s4))) else (fX8_type_L73 x 1100 (7 : Int32) s4)))) m 8 1100 0 rfl (by decide)
  rw [show nI (8 * 8) + (-8) = (56 : Int32) from by decide, nI_0, Nat.zero_add] at A
  rw [show fb_ct (nzb x) 0 = 0 from rfl, nI_0] at B
  rw [A, B]
  simp only [t1, t2, nI_add]
  by_cases c : L + fb_ct (nzb x) 8 ≤ 200
  · rw [if_pos (show nI (L + fb_ct (nzb x) 8) ≤ 200 from nI_le (b := 200) c (by decide)), if_neg (show ¬ (200 : Int32) < nI (L + fb_ct (nzb x) 8) from nI_nlt (a := 200) c (by decide))]
    obtain ⟨a', m', r1, r2, r3, r4, r5⟩ := app_L x 8 1100 L a (vI m 0 0) (by decide) (by decide) (Rel_v0 h 0) t1 t2 c
    rw [show nI (8 * 8) + (-8) = (56 : Int32) from by decide] at r1
    rw [show nI 8 + (-1) = (7 : Int32) from by decide] at r2
    refine Meets.ok (r := nI (L + fb_ct (nzb x) 8)) (a' := a') (m' := m') ?_ ?_ (r5.trans rfl) r3
    · rw [r1]
      simp only [Option.bind_some, one_0]
      unfold fX4_length
      rw [r4]
    · simp only [pass_0, Option.bind_some, one_0]
      exact r2
  · rw [if_neg (show ¬ nI (L + fb_ct (nzb x) 8) ≤ 200 from nI_ge (a := 200) (by omega) (by omega)), if_pos (show (200 : Int32) < nI (L + fb_ct (nzb x) 8) from nI_lt (a := 200) (by omega) (by omega))]
    refine Meets.e1 (r := 0) h ?_ ?_
    · simp only [Option.bind_some, if_true]
    · simp only [pass_1, Option.bind_some, if_true]
theorem g_clearText {a : cS} {m : mS} (h : Rel a m) : Meet0 (fX7_clearText a) (fX8_clearText m) := by
  obtain ⟨W, V, hs, hf, ⟨L, hL, t1, t2, t3⟩⟩ := h
  refine ⟨nI L, uI a 2 0, vI (vI m 0 0) 3 0, ?_, ?_, W, V, hs, hf, ⟨0, by omega, rfl, rfl, fun k hk => by omega⟩⟩
  · unfold fX7_clearText fX4_empty fX4_length
    simp only [Option.bind_some, t1]
  · unfold fX8_clearText
    rw [show mI (vI m 0 0) 3 = nI L from t2]
theorem g_textLength {a : cS} {m : mS} (h : Rel a m) : Meet0 (some (fX7_textLength a, a)) (fX8_textLength m) := by
  obtain ⟨L, hL, t1, t2, t3⟩ := h.2.2.2.2
  refine ⟨nI L, a, vI m 0 0, ?_, ?_, Rel_v0 h 0⟩
  · unfold fX7_textLength fX4_length
    rw [t1]
  · unfold fX8_textLength
    rw [show mI (vI m 0 0) 3 = nI L from t2]
/-! the three programs -/
def bb (z k : Nat) : Nat := (fS_at z (nI k)).toNatClampNeg
theorem bb_all : ∀ z, z < 3 → ∀ k, k < slen.getD z 0 → fS_at z (nI k) = nI (bb z k) ∧ 0 < bb z k ∧ bb z k < 256 := by decide +kernel
theorem sl_all : ∀ z, z < 3 → slen.getD z 0 ≤ 200 := by decide +kernel
theorem p_bec_L {z : Nat} (hz : z < 3) (a0 : cS) : ∀ (d fuel k : Nat) (a : cS), k + d = slen.getD z 0 → d < fuel → cB a = cB a0 → sI a 2 = nI k → (∀ j, j ≠ 2 → sI a j = sI a0 j) → (∀ l, l < k → sT a l = nI (bb z l)) → ∃ a', fX4_become_L7 z fuel (nI k) a = some a' ∧ cB a' = cB a0 ∧ sI a' 2 = nI (slen.getD z 0) ∧ (∀ j, j ≠ 2 → sI a' j = sI a0 j) ∧ (∀ l, l < slen.getD z 0 → sT a' l = nI (bb z l)) := by
  have sl := sl_all z hz
  intro d
  induction d with
  | zero =>
    intro fuel k a h hf hB hI hJ hT
    obtain ⟨f, rfl⟩ : ∃ f, fuel = f + 1 := ⟨fuel - 1, by omega⟩
    rw [fX4_become_L7, show fS_len z = nI (slen.getD z 0) from rfl, if_pos (show nI (slen.getD z 0) ≤ nI k from nI_le (by omega) (by omega))]
    have : k = slen.getD z 0 := by omega
    subst this
    exact ⟨a, rfl, hB, hI, hJ, hT⟩
  | succ d ih =>
    intro fuel k a h hf hB hI hJ hT
    obtain ⟨f, rfl⟩ : ∃ f, fuel = f + 1 := ⟨fuel - 1, by omega⟩
    have q := bb_all z hz k (by omega)
    rw [fX4_become_L7, show fS_len z = nI (slen.getD z 0) from rfl, if_neg (show ¬ nI (slen.getD z 0) ≤ nI k from nI_ge (by omega) (by omega)), if_pos (vinI (by omega) (by omega)), q.1, p_appendByte q.2.2 (by omega) (show k < 200 by omega) hI, nI_1]
    simp only [Option.bind_some]
    refine ih f (k + 1) _ (by omega) (by omega) hB rfl (fun j hj => ?_) (fun l hl => ?_)
    · exact (if_neg hj).trans (hJ j hj)
    · show (if l = k then nI (bb z k) else sT a l) = nI (bb z l)
      by_cases e : l = k
      · rw [if_pos e, e]
      · rw [if_neg e]
        exact hT l (by omega)
theorem m_ex_L {z : Nat} (hz : z < 3) (k0 : mS → Option (Int32 × mS)) (m0 : mS) : ∀ (d fuel k : Nat) (m : mS), k + d = slen.getD z 0 → d < fuel → m.1 = m0.1 → m.2.1 = m0.2.1 → (∀ l, l < k → mT m l = nI (bb z l)) → ∃ m', fX8_example_L23 z k0 fuel (nI k) m = k0 m' ∧ m'.1 = m0.1 ∧ m'.2.1 = m0.2.1 ∧ (∀ l, l < slen.getD z 0 → mT m' l = nI (bb z l)) := by
  have sl := sl_all z hz
  intro d
  induction d with
  | zero =>
    intro fuel k m h hf hR hI hT
    obtain ⟨f, rfl⟩ : ∃ f, fuel = f + 1 := ⟨fuel - 1, by omega⟩
    rw [fX8_example_L23, show fS_len z = nI (slen.getD z 0) from rfl, if_pos (show nI (slen.getD z 0) ≤ nI k from nI_le (by omega) (by omega))]
    have : k = slen.getD z 0 := by omega
    subst this
    exact ⟨m, rfl, hR, hI, hT⟩
  | succ d ih =>
    intro fuel k m h hf hR hI hT
    obtain ⟨f, rfl⟩ : ∃ f, fuel = f + 1 := ⟨fuel - 1, by omega⟩
    have q := bb_all z hz k (by omega)
    rw [fX8_example_L23, show fS_len z = nI (slen.getD z 0) from rfl, if_neg (show ¬ nI (slen.getD z 0) ≤ nI k from nI_ge (by omega) (by omega)), if_pos (vinI (by omega) (by omega)), if_pos (vin200 (show k < 200 by omega)), cl200 (show k < 200 by omega), q.1, nI_1]
    refine ih f (k + 1) _ (by omega) (by omega) hR hI (fun l hl => ?_)
    show upd m.2.2 k (nI (bb z k)) l = nI (bb z l)
    by_cases e : l = k
    · subst e
      exact pk_us
    · exact (pk_un e).trans (hT l (by omega))
theorem ex_one {a : cS} {m : mS} (h : Rel a m) {z : Nat} (hz : z < 3) : ∃ a' m', fX4_become z a = some a' ∧ fX4_length a' = nI (slen.getD z 0) ∧ fX8_example_L23 z (fun s7 => some ((mI (vI s7 3 (fS_len z)) 3, vI s7 3 (fS_len z)))) 1100 0 (vI m 0 0) = some (nI (slen.getD z 0), m') ∧ mI m' 0 = 0 ∧ Rel a' m' := by
  obtain ⟨W, V, hs, ⟨c, hc, f1, f2, f3⟩, ⟨L, hL, t1, t2, t3⟩⟩ := h
  have sl := sl_all z hz
  obtain ⟨a', e1, e2, e3, e4, e5⟩ := p_bec_L hz a (slen.getD z 0) 1100 0 (uI a 2 0) (by omega) (by omega) rfl rfl (fun j hj => if_neg hj) (fun l hl => by omega)
  obtain ⟨m1, g1, g2, g3, g4⟩ := m_ex_L hz (fun s7 => some ((mI (vI s7 3 (fS_len z)) 3, vI s7 3 (fS_len z)))) (vI m 0 0) (slen.getD z 0) 1100 0 (vI m 0 0) (by omega) (by omega) rfl rfl (fun l hl => by omega)
  have eB : mB (vI m1 3 (fS_len z)) = mB m := by
    funext r k
    show (decide (k < 102) && decide (m1.1 r k ≠ 0)) = (decide (k < 102) && decide (m.1 r k ≠ 0))
    rw [g2]
    rfl
  have eI : ∀ k, mI m1 k = mI (vI m 0 0) k := fun k => by unfold mI; rw [g3]
  refine ⟨a', vI m1 3 (fS_len z), e1, e3, g1, ?_, ?_⟩
  · rw [mI_vI, if_neg (by decide), eI 0]
    rfl
  · refine ⟨fun n => by rw [e2]; exact W n, fun r k => ?_, fun i hi => by rw [e2, eB]; exact hs i hi, ⟨c, hc, (e4 0 (by decide)).trans f1, ?_, fun j hj => by rw [e2, eB]; exact f3 j hj⟩, ⟨slen.getD z 0, sl, e3, rfl, fun k hk => ?_⟩⟩
    · show m1.1 r k = 0 ∨ m1.1 r k = 1
      rw [g2]
      exact V r k
    · rw [mI_vI, if_neg (by decide), eI 1]
      exact f2
    · have q := bb_all z hz k hk
      exact ⟨bb z k, q.2.1, q.2.2, e5 k hk, g4 k hk⟩
theorem exOf {j : Nat} (hj : j ≤ 2) (s : mS) : fX8_exampleOf (nI j) s = some (j, s) := by
  unfold fX8_exampleOf
  rcases show j = 0 ∨ j = 1 ∨ j = 2 by omega with rfl | rfl | rfl <;> rfl
theorem g_example {a : cS} {m : mS} (h : Rel a m) (p : Int32) : Meets 2 2 (fX7_example p a) (fX8_example p m) := by
  rcases rng p 0 2 with ⟨q1, q2, q3, q4⟩ | ⟨q1, q2⟩
  · obtain ⟨j, hj, rfl⟩ := three_of (n := 2) (by decide) q3 q4
    obtain ⟨a', m', e1, e2, e3, e4, e5⟩ := ex_one h (z := j) (by omega)
    refine Meets.ok (r := nI (slen.getD j 0)) (a' := a') (m' := m') ?_ ?_ e4 e5
    · unfold fX7_example
      simp only [q1, Option.bind_some, Sum.elim_inr]
      rcases show j = 0 ∨ j = 1 ∨ j = 2 by omega with rfl | rfl | rfl
      · rw [if_pos (show nI 0 = 0 from rfl), e1]
        simp only [Option.bind_some, e2]
      · rw [if_neg (show ¬ nI 1 = 0 by decide), if_pos (show nI 1 = 1 from rfl), e1]
        simp only [Option.bind_some, e2]
      · rw [if_neg (show ¬ nI 2 = 0 by decide), if_neg (show ¬ nI 2 = 1 by decide), e1]
        simp only [Option.bind_some, e2]
    · unfold fX8_example
      simp only [q2, pass_0, Option.bind_some, one_0]
      rw [exOf hj]
      simp only [Option.bind_some]
      rw [if_pos (show j < 3 by omega)]
      exact e3
  · refine Meets.e1 (r := 0) h ?_ ?_
    · unfold fX7_example
      simp only [q1, Option.bind_some, Sum.elim_inl]
    · unfold fX8_example
      simp only [q2, pass_1, Option.bind_some, if_true]
