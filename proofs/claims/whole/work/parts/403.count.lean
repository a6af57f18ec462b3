/-! ===== Long.bitCount counts the bits ===== -/
theorem and_peel {a b m M : Nat} (ha : a < 256) (hm : m < 256) : (a + 256 * b) &&& (m + 256 * M) = (a &&& m) + 256 * (b &&& M) := by
  have hx : (a &&& m) < 2 ^ 8 := Nat.and_lt_two_pow _ hm
  apply Nat.eq_of_testBit_eq
  intro j
  rw [Nat.testBit_and, show a + 256 * b = 2 ^ 8 * b + a from by omega, show m + 256 * M = 2 ^ 8 * M + m from by omega, show (a &&& m) + 256 * (b &&& M) = 2 ^ 8 * (b &&& M) + (a &&& m) from by omega, Nat.testBit_two_pow_mul_add b (i := 8) ha, Nat.testBit_two_pow_mul_add M (i := 8) hm, Nat.testBit_two_pow_mul_add _ hx]
  by_cases c : j < 8
  · rw [if_pos c, if_pos c, if_pos c, Nat.testBit_and]
  · rw [if_neg c, if_neg c, if_neg c, Nat.testBit_and]
def mk8 (c : Nat) : Nat → Nat
  | 0 => 0
  | k + 1 => c + 256 * mk8 c k
def w1 (k x : Nat) : Nat := x - ((x / 2) &&& mk8 85 k)
def w2 (k z : Nat) : Nat := (z &&& mk8 51 k) + ((z / 4) &&& mk8 51 k)
def w3 (k w : Nat) : Nat := (w + w / 16) &&& mk8 15 k
def pc8 (y : Nat) : Nat := fb_ct (fun j => y.testBit j) 8
theorem k55 : ∀ y, y < 256 → ∀ c, c < 2 → (y / 2 + 128 * c) &&& 85 = (y / 2) &&& 85 := by decide +kernel
theorem k33 : ∀ y, y < 256 → ∀ c, c < 4 → (y / 4 + 64 * c) &&& 51 = (y / 4) &&& 51 := by decide +kernel
theorem k0f : ∀ y, y < 103 → ∀ c, c < 7 → (y + y / 16 + 16 * c) &&& 15 = (y + y / 16) &&& 15 ∧ y + y / 16 + 16 * c < 256 := by decide +kernel
theorem kpc : ∀ y, y < 256 → (((y - ((y / 2) &&& 85)) &&& 51) + (((y - ((y / 2) &&& 85)) / 4) &&& 51) + (((y - ((y / 2) &&& 85)) &&& 51) + (((y - ((y / 2) &&& 85)) / 4) &&& 51)) / 16) &&& 15 = pc8 y ∧ y - ((y / 2) &&& 85) < 256 ∧ ((y - ((y / 2) &&& 85)) &&& 51) + (((y - ((y / 2) &&& 85)) / 4) &&& 51) < 103 ∧ (y / 2) &&& 85 ≤ y ∧ pc8 y ≤ 8 := by decide +kernel
theorem w1_peel {y : Nat} (hy : y < 256) (x k : Nat) : w1 (k + 1) (y + 256 * x) = (y - ((y / 2) &&& 85)) + 256 * w1 k x := by
  have e : (y + 256 * x) / 2 = (y / 2 + 128 * (x % 2)) + 256 * (x / 2) := by omega
  have h1 := k55 y hy (x % 2) (Nat.mod_lt _ (by decide))
  have h2 := (kpc y hy).2.2.2.1
  have h3 : (x / 2) &&& mk8 85 k ≤ x := Nat.le_trans Nat.and_le_left (Nat.div_le_self _ _)
  unfold w1
  rw [e]
  show y + 256 * x - ((y / 2 + 128 * (x % 2) + 256 * (x / 2)) &&& (85 + 256 * mk8 85 k)) = _
  rw [and_peel (by omega) (by decide), h1]
  omega
theorem w2_peel {y : Nat} (hy : y < 256) (x k : Nat) : w2 (k + 1) (y + 256 * x) = ((y &&& 51) + ((y / 4) &&& 51)) + 256 * w2 k x := by
  have e : (y + 256 * x) / 4 = (y / 4 + 64 * (x % 4)) + 256 * (x / 4) := by omega
  have h1 := k33 y hy (x % 4) (Nat.mod_lt _ (by decide))
  unfold w2
  rw [e]
  show ((y + 256 * x) &&& (51 + 256 * mk8 51 k)) + ((y / 4 + 64 * (x % 4) + 256 * (x / 4)) &&& (51 + 256 * mk8 51 k)) = _
  rw [and_peel hy (by decide), and_peel (by omega) (by decide), h1]
  omega
theorem w2_low (z : Nat) : ∀ k, w2 k z % 16 < 7 := by
  intro k
  cases k with
  | zero => unfold w2 mk8; rw [Nat.and_zero, Nat.and_zero]; decide
  | succ k =>
    have h : ∀ a : Nat, (a &&& (51 + 256 * mk8 51 k)) % 16 ≤ 3 := by
      intro a
      have := Nat.and_two_pow_sub_one_eq_mod (a &&& (51 + 256 * mk8 51 k)) 4
      rw [show (2 : Nat) ^ 4 = 16 from rfl] at this
      rw [← this, Nat.and_assoc]
      have e : (51 + 256 * mk8 51 k) &&& (16 - 1) = 3 := by
        have := Nat.and_two_pow_sub_one_eq_mod (51 + 256 * mk8 51 k) 4
        rw [show (2 : Nat) ^ 4 = 16 from rfl] at this
        rw [this]
        omega
      rw [e]
      exact Nat.and_le_right
    have h1 := h z
    have h2 := h (z / 4)
    show ((z &&& (51 + 256 * mk8 51 k)) + ((z / 4) &&& (51 + 256 * mk8 51 k))) % 16 < 7
    omega
theorem w3_peel {y : Nat} (hy : y < 103) (x k : Nat) (hx : x % 16 < 7) : w3 (k + 1) (y + 256 * x) = ((y + y / 16) &&& 15) + 256 * w3 k x := by
  have e : (y + 256 * x) / 16 = y / 16 + 16 * (x % 16) + 256 * (x / 16) := by omega
  have h1 := k0f y hy (x % 16) hx
  unfold w3
  rw [e]
  show (y + 256 * x + (y / 16 + 16 * (x % 16) + 256 * (x / 16))) &&& (15 + 256 * mk8 15 k) = _
  rw [show y + 256 * x + (y / 16 + 16 * (x % 16) + 256 * (x / 16)) = (y + y / 16 + 16 * (x % 16)) + 256 * (x + x / 16) from by omega, and_peel h1.2 (by decide), h1.1]
/-- all three steps, byte by byte -/
def by8 : Nat → Nat → Nat
  | 0, _ => 0
  | k + 1, x => pc8 (x % 256) + 256 * by8 k (x / 256)
theorem w_all : ∀ (k x : Nat), x < 256 ^ k → w3 k (w2 k (w1 k x)) = by8 k x := by
  intro k
  induction k with
  | zero =>
    intro x h
    have : x = 0 := by simpa using h
    subst this
    rfl
  | succ k ih =>
    intro x h
    obtain ⟨y, z, hy, rfl⟩ : ∃ y z, y < 256 ∧ x = y + 256 * z := ⟨x % 256, x / 256, Nat.mod_lt _ (by decide), by omega⟩
    have hz : z < 256 ^ k := by
      rw [Nat.pow_succ] at h
      omega
    have q := kpc y hy
    rw [w1_peel hy, w2_peel q.2.1, w3_peel q.2.2.1 _ _ (w2_low _ _), ih z hz, q.1]
    show _ = pc8 ((y + 256 * z) % 256) + 256 * by8 k ((y + 256 * z) / 256)
    rw [show (y + 256 * z) % 256 = y from by omega, show (y + 256 * z) / 256 = z from by omega]
theorem pc8_le {y : Nat} (h : y < 256) : pc8 y ≤ 8 := (kpc y h).2.2.2.2
def s8 : Nat → Nat → Nat
  | 0, _ => 0
  | k + 1, x => pc8 (x % 256) + s8 k (x / 256)
theorem s8_ct : ∀ (k x : Nat), s8 k x = fb_ct (fun j => x.testBit j) (8 * k) := by
  intro k
  induction k with
  | zero => intro x; rfl
  | succ k ih =>
    intro x
    show pc8 (x % 256) + s8 k (x / 256) = _
    rw [ih, show 8 * (k + 1) = 8 + 8 * k from by omega, fb_ct_split]
    congr 1
    · unfold pc8
      apply fb_ct_cong
      intro j hj
      rw [show (256 : Nat) = 2 ^ 8 from rfl, Nat.testBit_mod_two_pow, decide_eq_true hj, Bool.true_and]
    · apply fb_ct_cong
      intro j _
      rw [show (256 : Nat) = 2 ^ 8 from rfl, Nat.testBit_div_two_pow, Nat.add_comm]
theorem fin8 {x : Nat} : ((by8 8 x + by8 8 x / 256 + (by8 8 x + by8 8 x / 256) / 65536) + (by8 8 x + by8 8 x / 256 + (by8 8 x + by8 8 x / 256) / 65536) / 4294967296) % 128 = s8 8 x ∧ by8 8 x < 2 ^ 60 := by
  have h : ∀ y, pc8 (y % 256) ≤ 8 := fun y => pc8_le (Nat.mod_lt _ (by decide))
  have h0 := h x
  have h1 := h (x / 256)
  have h2 := h (x / 256 / 256)
  have h3 := h (x / 256 / 256 / 256)
  have h4 := h (x / 256 / 256 / 256 / 256)
  have h5 := h (x / 256 / 256 / 256 / 256 / 256)
  have h6 := h (x / 256 / 256 / 256 / 256 / 256 / 256)
  have h7 := h (x / 256 / 256 / 256 / 256 / 256 / 256 / 256)
  simp only [by8, s8]
  generalize pc8 (x % 256) = a0 at *
  generalize pc8 (x / 256 % 256) = a1 at *
  generalize pc8 (x / 256 / 256 % 256) = a2 at *
  generalize pc8 (x / 256 / 256 / 256 % 256) = a3 at *
  generalize pc8 (x / 256 / 256 / 256 / 256 % 256) = a4 at *
  generalize pc8 (x / 256 / 256 / 256 / 256 / 256 % 256) = a5 at *
  generalize pc8 (x / 256 / 256 / 256 / 256 / 256 / 256 % 256) = a6 at *
  generalize pc8 (x / 256 / 256 / 256 / 256 / 256 / 256 / 256 % 256) = a7 at *
  clear h
  obtain ⟨A, eA⟩ : ∃ A, A = a0 + 256 * a1 + 65536 * a2 + 16777216 * a3 + 4294967296 * a4 + 1099511627776 * a5 + 281474976710656 * a6 + 72057594037927936 * a7 := ⟨_, rfl⟩
  rw [show a0 + 256 * (a1 + 256 * (a2 + 256 * (a3 + 256 * (a4 + 256 * (a5 + 256 * (a6 + 256 * (a7 + 256 * 0))))))) = A from by omega]
  have d1 : A / 256 = a1 + 256 * a2 + 65536 * a3 + 16777216 * a4 + 4294967296 * a5 + 1099511627776 * a6 + 281474976710656 * a7 := by omega
  obtain ⟨B, eB⟩ : ∃ B, B = A + A / 256 := ⟨_, rfl⟩
  have b1 : B = (a0 + a1) + 256 * (a1 + a2) + 65536 * (a2 + a3) + 16777216 * (a3 + a4) + 4294967296 * (a4 + a5) + 1099511627776 * (a5 + a6) + 281474976710656 * (a6 + a7) + 72057594037927936 * a7 := by rw [eB, d1, eA]; omega
  have d2 : B / 65536 = (a2 + a3) + 256 * (a3 + a4) + 65536 * (a4 + a5) + 16777216 * (a5 + a6) + 4294967296 * (a6 + a7) + 1099511627776 * a7 := by rw [b1]; clear b1 eB eA d1; omega
  obtain ⟨C, eC⟩ : ∃ C, C = B + B / 65536 := ⟨_, rfl⟩
  have c1 : C = (a0 + a1 + a2 + a3) + 256 * (a1 + a2 + a3 + a4) + 65536 * (a2 + a3 + a4 + a5) + 16777216 * (a3 + a4 + a5 + a6) + 4294967296 * (a4 + a5 + a6 + a7) + 1099511627776 * (a5 + a6 + a7) + 281474976710656 * (a6 + a7) + 72057594037927936 * a7 := by rw [eC, d2, b1]; clear d1 d2 eA eB eC b1; omega
  have d3 : C / 4294967296 = (a4 + a5 + a6 + a7) + 256 * (a5 + a6 + a7) + 65536 * (a6 + a7) + 16777216 * a7 := by rw [c1]; clear c1 d1 d2 eA eB eC b1; omega
  rw [← eB, ← eC]
  refine ⟨?_, ?_⟩
  · rw [d3, c1]
    clear d1 d2 d3 eA eB eC b1 c1
    omega
  · rw [eA]
    clear d1 d2 d3 eA eB eC b1 c1
    omega
theorem sh1 {n : Nat} (hn : n < 2 ^ 64) : ((lN n).toUInt64 >>> ((1 : Int32).toInt64.toUInt64 &&& Int64.toUInt64 63)).toInt64 = lN (n / 2) := wb_shr (k := 1) hn (by decide)
theorem sh2 {n : Nat} (hn : n < 2 ^ 64) : ((lN n).toUInt64 >>> ((2 : Int32).toInt64.toUInt64 &&& Int64.toUInt64 63)).toInt64 = lN (n / 4) := wb_shr (k := 2) hn (by decide)
theorem sh4 {n : Nat} (hn : n < 2 ^ 64) : ((lN n).toUInt64 >>> ((4 : Int32).toInt64.toUInt64 &&& Int64.toUInt64 63)).toInt64 = lN (n / 16) := wb_shr (k := 4) hn (by decide)
theorem sh8 {n : Nat} (hn : n < 2 ^ 64) : ((lN n).toUInt64 >>> ((8 : Int32).toInt64.toUInt64 &&& Int64.toUInt64 63)).toInt64 = lN (n / 256) := wb_shr (k := 8) hn (by decide)
theorem sh16 {n : Nat} (hn : n < 2 ^ 64) : ((lN n).toUInt64 >>> ((16 : Int32).toInt64.toUInt64 &&& Int64.toUInt64 63)).toInt64 = lN (n / 65536) := wb_shr (k := 16) hn (by decide)
theorem sh32 {n : Nat} (hn : n < 2 ^ 64) : ((lN n).toUInt64 >>> ((32 : Int32).toInt64.toUInt64 &&& Int64.toUInt64 63)).toInt64 = lN (n / 4294967296) := wb_shr (k := 32) hn (by decide)
theorem mk85 : mk8 85 8 = 6148914691236517205 := rfl
theorem mk51 : mk8 51 8 = 3689348814741910323 := rfl
theorem mk15 : mk8 15 8 = 1085102592571150095 := rfl
theorem p_bitCount {n : Nat} (hn : n < 2 ^ 64) (s : cS) : fJ13_bitCount_95d88 (lN n) s = nI (fb_ct (fun j => n.testBit j) 64) := by
  have e1 : lN n - (((lN n).toUInt64 >>> ((1 : Int32).toInt64.toUInt64 &&& Int64.toUInt64 63)).toInt64 &&& 6148914691236517205) = lN (w1 8 n) := by
    rw [sh1 hn]
    show lN n - (lN (n / 2) &&& lN 6148914691236517205) = _
    rw [wb_and (by omega) (by decide)]
    unfold w1
    rw [mk85]
    exact lN_sub (Nat.le_trans Nat.and_le_left (Nat.div_le_self _ _))
  have l1 : w1 8 n < 2 ^ 64 := Nat.lt_of_le_of_lt (Nat.sub_le _ _) hn
  have e2 : (lN (w1 8 n) &&& 3689348814741910323) + (((lN (w1 8 n)).toUInt64 >>> ((2 : Int32).toInt64.toUInt64 &&& Int64.toUInt64 63)).toInt64 &&& 3689348814741910323) = lN (w2 8 (w1 8 n)) := by
    rw [sh2 l1]
    show (lN (w1 8 n) &&& lN 3689348814741910323) + (lN (w1 8 n / 4) &&& lN 3689348814741910323) = _
    rw [wb_and l1 (by decide), wb_and (by omega) (by decide), lN_add]
    rfl
  have l2 : w2 8 (w1 8 n) < 2 ^ 63 := by
    have a : (w1 8 n &&& mk8 51 8) ≤ mk8 51 8 := Nat.and_le_right
    have b : ((w1 8 n / 4) &&& mk8 51 8) ≤ mk8 51 8 := Nat.and_le_right
    rw [mk51] at a b
    unfold w2
    rw [mk51]
    omega
  have e3 : (lN (w2 8 (w1 8 n)) + ((lN (w2 8 (w1 8 n))).toUInt64 >>> ((4 : Int32).toInt64.toUInt64 &&& Int64.toUInt64 63)).toInt64) &&& 1085102592571150095 = lN (by8 8 n) := by
    rw [sh4 (by omega), lN_add]
    show lN _ &&& lN 1085102592571150095 = _
    rw [wb_and (by omega) (by decide), ← w_all 8 n hn]
    rfl
  have f := fin8 (x := n)
  have l3 := f.2
  unfold fJ13_bitCount_95d88
  rw [e1, e2, e3, sh8 (by omega), lN_add, sh16 (by omega), lN_add, sh32 (by omega), lN_add, lN_i]
  rw [pk_and _ 7 (by decide)]
  rw [show ∀ X : Nat, (nI X).toBitVec.toNat = X % 4294967296 from fun X => BitVec.toNat_ofNat _ _, show (2 : Nat) ^ 7 = 128 from rfl, Nat.mod_mod_of_dvd _ (by decide), f.1, s8_ct]
theorem p_count (n : Nat) (s : cS) (W : Wf s) : fX2_count n s = nI (sz (cB s n)) := by
  obtain ⟨a, ha, ea⟩ := wb_of (sL s n)
  obtain ⟨b, hb, eb⟩ := wb_of (sH s n)
  unfold fX2_count
  rw [ea, eb, p_bitCount ha, p_bitCount hb, nI_add]
  have h1 : fb_ct (fun j => a.testBit j) 64 = fb_ct (cB s n) 64 := fb_ct_cong fun k hk => by
    unfold cB pB
    rw [if_pos hk, ea, wb_tb, BitVec.getLsbD_ofNat, decide_eq_true hk, Bool.true_and]
  have h2 : fb_ct (fun j => b.testBit j) 64 = fb_ct (fun k => cB s n (64 + k)) 64 := fb_ct_cong fun k hk => by
    unfold cB pB
    rw [if_neg (by omega), eb, wb_tb, BitVec.getLsbD_ofNat, show 64 + k - 64 = k from by omega, decide_eq_true hk, Bool.true_and]
  have h3 : fb_ct (cB s n) (102 + 26) = fb_ct (cB s n) 102 := by
    rw [fb_ct_split, fb_ct_zero.mpr (fun k _ => W n (102 + k) (by omega)), Nat.add_zero]
  unfold sz
  rw [h1, h2, ← fb_ct_split, ← h3]
