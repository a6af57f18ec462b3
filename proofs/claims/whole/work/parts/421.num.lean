/-! ===== reading: numbers ===== -/
def dgt (c : Nat) : Bool := decide (48 ≤ c ∧ c ≤ 57)
theorem dgt_all : ∀ c, c < 256 → (if nI c < 48 then (0 : Int32) else if 57 < nI c then 0 else 1) = bi (dgt c) := by decide +kernel
theorem m_dgt {c : Nat} (h : c < 256) (m : mS) : fX8_in (nI c) 48 57 m = bi (dgt c) := dgt_all c h
theorem c_dgt {c : Nat} (h : c < 256) (a : cS) : fX3_isDigit (nI c) a = bi (dgt c) := dgt_all c h
theorem dgt_0 : dgt 0 = false := by decide
theorem num_L {T : Nat → Nat} {L : Nat} (h : TX T L) (x1 x2 x3 y1 y2 : Int32) (k0 : Int32 → cS → Option (Int32 × cS)) (km : Int32 → mS → Option (Int32 × mS)) : ∀ (d fuel p S v : Nat) (a : cS) (m : mS), p + d = L → d < fuel → cTx T L a → mTx T L m → sI a 3 = nI p → mI m 5 = nI p → (S ≤ 50 ∧ v = S ∨ 50 < S ∧ v = 51) → S < 1000 → ∃ p' S' v', (p ≤ p' ∧ (dgt (ch T L p) = true → p < p')) ∧ p' ≤ L ∧ (S' ≤ 50 ∧ v' = S' ∨ 50 < S' ∧ v' = 51) ∧ S' < 1000 ∧ fX3_readNumber_L52 x1 x2 x3 k0 fuel (nI S) a = k0 (nI S') (uI a 3 (nI p')) ∧ fX8_number_L65 y1 y2 km fuel (nI v) m = km (nI v') (vI m 5 (nI p')) := by
  have hL := h.1
  intro d
  induction d with
  | zero =>
    intro fuel p S v a m hp hf ha hm h3 h5 hv hS
    obtain ⟨f, rfl⟩ : ∃ f, fuel = f + 1 := ⟨fuel - 1, by omega⟩
    have ec : ch T L p = 0 := if_neg (by omega)
    refine ⟨p, S, v, ⟨Nat.le_refl _, fun z => by rw [ec] at z; exact Bool.noConfusion z⟩, by omega, hv, hS, ?_, ?_⟩
    · rw [fX3_readNumber_L52, fX4_length, ha.1, h3, if_pos (nI_le (by omega) (by omega)), uI_self h3]
    · rw [fX8_number_L65, m_sign h hm (by omega) h5, ec]
      simp only [Option.bind_some, m_dgt (show 0 < 256 by decide), dgt_0, if_bi, Bool.false_eq_true, if_false]
      rw [vI_self h5]
  | succ d ih =>
    intro fuel p S v a m hp hf ha hm h3 h5 hv hS
    obtain ⟨f, rfl⟩ : ∃ f, fuel = f + 1 := ⟨fuel - 1, by omega⟩
    have hc := ch_lt h p
    have ec : ch T L p = T p := if_pos (by omega)
    rw [fX3_readNumber_L52, fX4_length, ha.1, h3, if_neg (nI_ge (by omega) (by omega)), p_byteAt h ha (by omega), fX8_number_L65, m_sign h hm (by omega) h5]
    rw [ec] at hc ⊢
    simp only [Option.bind_some, m_dgt hc, c_dgt hc, if_bi]
    cases g : dgt (T p)
    · simp only [Bool.false_eq_true, if_false]
      exact ⟨p, S, v, ⟨Nat.le_refl _, fun z => z.elim⟩, by omega, hv, hS, by rw [uI_self h3], by rw [vI_self h5]⟩
    · simp only [if_true]
      have gd : 48 ≤ T p ∧ T p ≤ 57 := of_decide_eq_true g
      rw [m_sign h hm (by omega) h5]
      simp only [Option.bind_some, h3, h5]
      rw [ec]
      have ev : (10 : Int32) * nI v + nI (T p) - 48 = nI (10 * v + T p - 48) := by
        rw [show (10 : Int32) * nI v = nI (10 * v) from pk_mul 10 v, nI_add]
        exact pk_sub (b := 48) (by omega)
      rw [ev]
      have ew : (if 51 < nI (10 * v + T p - 48) then (51 : Int32) else nI (10 * v + T p - 48)) = nI (if 51 < 10 * v + T p - 48 then 51 else 10 * v + T p - 48) := by
        by_cases c : 51 < 10 * v + T p - 48
        · rw [if_pos c, if_pos (show (51 : Int32) < nI (10 * v + T p - 48) from nI_lt (a := 51) c (by omega))]
          rfl
        · rw [if_neg c, if_neg (show ¬ (51 : Int32) < nI (10 * v + T p - 48) from nI_nlt (a := 51) (by omega) (by decide))]
      rw [ew]
      by_cases c : 50 < S
      · rw [if_pos (show (50 : Int32) < nI S from nI_lt (a := 50) c (by omega)), nI_1 p]
        obtain ⟨p', S', v', r1, r2, r3, r4, r5, r6⟩ := ih f (p + 1) S (if 51 < 10 * v + T p - 48 then 51 else 10 * v + T p - 48) (uI a 3 (nI (p + 1))) (vI m 5 (nI (p + 1))) (by omega) (by omega) ⟨ha.1, ha.2⟩ ⟨hm.1, hm.2⟩ rfl rfl (Or.inr ⟨c, by rw [if_pos (by omega)]⟩) hS
        exact ⟨p', S', v', ⟨by omega, fun _ => by omega⟩, r2, r3, r4, by rw [r5, uI_twice], by rw [r6, vI_twice]⟩
      · rw [if_neg (show ¬ (50 : Int32) < nI S from nI_nlt (a := 50) (by omega) (by decide)), p_byteAt h ha (by omega)]
        simp only [Option.bind_some]
        rw [ec, h3, nI_1 p]
        have es : nI S * 10 + (nI (T p) - 48) = nI (S * 10 + (T p - 48)) := by
          rw [show nI S * (10 : Int32) = nI (S * 10) from pk_mul S 10, show nI (T p) - (48 : Int32) = nI (T p - 48) from pk_sub (b := 48) gd.1, nI_add]
        rw [es]
        obtain ⟨p', S', v', r1, r2, r3, r4, r5, r6⟩ := ih f (p + 1) (S * 10 + (T p - 48)) (if 51 < 10 * v + T p - 48 then 51 else 10 * v + T p - 48) (uI a 3 (nI (p + 1))) (vI m 5 (nI (p + 1))) (by omega) (by omega) ⟨ha.1, ha.2⟩ ⟨hm.1, hm.2⟩ rfl rfl (by split <;> omega) (by omega)
        exact ⟨p', S', v', ⟨by omega, fun _ => by omega⟩, r2, r3, r4, by rw [r5, uI_twice], by rw [r6, vI_twice]⟩
/-- the numbers from -50 to 50, by their places -/
theorem sgn_all : ∀ S, S ≤ 50 → nI S = nI (S + 51) - 51 ∧ -nI S = nI (51 - S) - 51 := by decide +kernel
theorem km_lt {k l : Nat} (hk : k < 1000) (hl : l < 1000) : nI k - 51 < nI l - 51 ↔ k < l := by
  rw [Int32.lt_iff_toInt_lt]
  have a := pk_sub_toInt (a := k) (b := 51) (by omega) (by decide)
  have b := pk_sub_toInt (a := l) (b := 51) (by omega) (by decide)
  rw [show nI 51 = (51 : Int32) from rfl] at a b
  rw [a, b]
  omega
theorem km_le {k l : Nat} (hk : k < 1000) (hl : l < 1000) : nI k - 51 ≤ nI l - 51 ↔ k ≤ l := by
  rw [← Int32.not_lt, km_lt hl hk]
  omega
theorem big_neg : ∀ S, S < 1000 → 50 < S → -nI S < nI 1 - 51 ∧ ¬ nI S ≤ (50 : Int32) := by decide +kernel
theorem lst_1 : (-50 : Int32) = nI 1 - 51 := by decide
theorem top_50 : (50 : Int32) = nI 101 - 51 := by decide
/-- the two failed -/
def cFail (a : cS) (p kd pl : Nat) : cS := uI (uI (uI a 3 (nI p)) 9 (nI kd)) 10 (nI pl)
def mFail (m : mS) (p kd pl : Nat) : mS := vI (vI (vI m 5 (nI p)) 7 (nI kd)) 8 (nI pl)
theorem num_both {T : Nat → Nat} {L q l : Nat} (h : TX T L) {a : cS} {m : mS} (ha : cTx T L a) (hm : mTx T L m) (hq : q < L) (h3 : sI a 3 = nI q) (h5 : mI m 5 = nI q) (h7 : mI m 7 = 0) (hl0 : 0 < l) (hl : l < 102) : (∃ p', p' = (if T q = 45 then q + 1 else q) ∧ dgt (ch T L p') = false ∧ fX3_readNumber (nI (T q)) (nI l - 51) a = some (0, cFail a p' 1 p') ∧ fX8_number m = some (0, mFail m p' 1 p')) ∨ (∃ p' r, q < p' ∧ p' ≤ L ∧ fX3_readNumber (nI (T q)) (nI l - 51) a = some (0, cFail a p' 2 q) ∧ fX8_number m = some (r, mFail m p' 2 q)) ∨ (∃ p' k, q < p' ∧ p' ≤ L ∧ 0 < k ∧ k < 102 ∧ fX3_readNumber (nI (T q)) (nI l - 51) a = (if k < l then some (0, cFail a p' 2 q) else some (nI k - 51, uI a 3 (nI p'))) ∧ fX8_number m = some (nI k - 51, vI m 5 (nI p'))) := by
  have hL := h.1
  have hc : T q < 256 := (h.2 q hq).2
  have ecq : ch T L q = T q := if_pos hq
  by_cases c : T q = 45
  · -- a minus
    have cN : nI (T q) = 45 := by rw [c]; rfl
    have hq1 := ch_lt h (q + 1)
    have e3 : sI (uI a 3 (nI (q + 1))) 3 = nI (q + 1) := rfl
    have eC : fX3_readNumber (nI (T q)) (nI l - 51) a = if dgt (ch T L (q + 1)) then (fX3_readNumber_L52 45 (nI l - 51) (nI q) (fun y4_15 s15 => if (45 : Int32) = 45 then (if (-y4_15) < nI l - 51 then ((fX3_fail (2 : Int32) (nI q) s15).bind (fun s18 => some ((0, s18)))) else (if (-y4_15) ≤ 50 then (some ((-y4_15, s15))) else ((fX3_fail (2 : Int32) (nI q) s15).bind (fun s19 => some ((0, s19)))))) else (if y4_15 < nI l - 51 then ((fX3_fail (2 : Int32) (nI q) s15).bind (fun s16 => some ((0, s16)))) else (if y4_15 ≤ 50 then (some ((y4_15, s15))) else ((fX3_fail (2 : Int32) (nI q) s15).bind (fun s17 => some ((0, s17))))))) 1100 (0 : Int32) (uI a 3 (nI (q + 1)))) else some (0, cFail a (q + 1) 1 (q + 1)) := by
      unfold fX3_readNumber
      rw [if_pos cN, h3, nI_1, cN, e3, p_byteAt h (a := uI a 3 (nI (q + 1))) ⟨ha.1, ha.2⟩ (by omega)]
      simp only [Option.bind_some, c_dgt hq1, if_bi]
      cases dgt (ch T L (q + 1))
      · rfl
      · rfl
    have eM : fX8_number m = if dgt (ch T L (q + 1)) then (fX8_number_L65 (nI q) (1 : Int32) (fun y3_12 s12 => if y3_12 ≤ 50 then (some ((-y3_12, s12))) else ((fX8_fails (2 : Int32) (nI q) s12).bind (fun s13 => some ((-y3_12, s13))))) 1100 (0 : Int32) (vI m 5 (nI (q + 1)))) else some (0, mFail m (q + 1) 1 (q + 1)) := by
      unfold fX8_number
      rw [m_sign h hm (by omega) h5, ecq]
      simp only [Option.bind_some, h5]
      rw [if_pos cN, nI_1, m_sign h (m := vI m 5 (nI (q + 1))) ⟨hm.1, hm.2⟩ (p := q + 1) (by omega) rfl]
      simp only [Option.bind_some, m_dgt hq1, if_bi]
      rw [m_fails 1 _ (show mI (vI m 5 (nI (q + 1))) 7 = 0 from h7)]
      cases dgt (ch T L (q + 1))
      · rfl
      · rfl
    cases g : dgt (ch T L (q + 1))
    · left
      rw [eC.trans (if_neg (by rw [g]; decide)), eM.trans (if_neg (by rw [g]; decide))]
      exact ⟨q + 1, by rw [if_pos c], g, rfl, rfl⟩
    · right
      rw [eC.trans (if_pos g), eM.trans (if_pos g)]
      have hq2 : q + 1 ≤ L := by omega
      obtain ⟨p', S, v, r1, r2, r3, r4, r5, r6⟩ := num_L h 45 (nI l - 51) (nI q) (nI q) 1 (fun y4_15 s15 => if (45 : Int32) = 45 then (if (-y4_15) < nI l - 51 then ((fX3_fail (2 : Int32) (nI q) s15).bind (fun s18 => some ((0, s18)))) else (if (-y4_15) ≤ 50 then (some ((-y4_15, s15))) else ((fX3_fail (2 : Int32) (nI q) s15).bind (fun s19 => some ((0, s19)))))) else (if y4_15 < nI l - 51 then ((fX3_fail (2 : Int32) (nI q) s15).bind (fun s16 => some ((0, s16)))) else (if y4_15 ≤ 50 then (some ((y4_15, s15))) else ((fX3_fail (2 : Int32) (nI q) s15).bind (fun s17 => some ((0, s17))))))) (fun y3_12 s12 => if y3_12 ≤ 50 then (some ((-y3_12, s12))) else ((fX8_fails (2 : Int32) (nI q) s12).bind (fun s13 => some ((-y3_12, s13))))) (L - (q + 1)) 1100 (q + 1) 0 0 (uI a 3 (nI (q + 1))) (vI m 5 (nI (q + 1))) (by omega) (by omega) ⟨ha.1, ha.2⟩ ⟨hm.1, hm.2⟩ rfl rfl (Or.inl ⟨by omega, rfl⟩) (by omega)
      rw [nI_0, uI_twice] at r5
      rw [nI_0, vI_twice] at r6
      rw [r5, r6]
      simp only [if_true]
      rcases r3 with ⟨s1, s2⟩ | ⟨s1, s2⟩
      · right
        have sg := (sgn_all S s1).2
        refine ⟨p', 51 - S, by omega, r2, by omega, by omega, ?_, ?_⟩
        · rw [sg]
          by_cases k : 51 - S < l
          · rw [if_pos k, if_pos ((km_lt (by omega) (by omega)).mpr k)]
            rfl
          · rw [if_neg k, if_neg (fun z => k ((km_lt (by omega) (by omega)).mp z)), top_50, if_pos ((km_le (by omega) (by omega)).mpr (by omega))]
        · rw [s2, if_pos (show nI S ≤ 50 from nI_le (b := 50) s1 (by decide)), sg]
      · left
        have bg := big_neg S r4 s1
        refine ⟨p', -nI v, by omega, r2, ?_, ?_⟩
        · rw [if_pos (Int32.lt_of_lt_of_le bg.1 ((km_le (by omega) (by omega)).mpr (by omega)))]
          rfl
        · rw [s2, if_neg (show ¬ nI 51 ≤ 50 by decide), m_fails 2 _ (show mI (vI m 5 (nI p')) 7 = 0 from h7)]
          rfl
  · -- no minus
    have cN : ¬ nI (T q) = 45 := fun z => c ((ceq (d := 45) hc (by decide)).mp z)
    have eC : fX3_readNumber (nI (T q)) (nI l - 51) a = if dgt (T q) then (fX3_readNumber_L52 (nI (T q)) (nI l - 51) (nI q) (fun y4_7 s7 => if nI (T q) = 45 then (if (-y4_7) < nI l - 51 then ((fX3_fail (2 : Int32) (nI q) s7).bind (fun s10 => some ((0, s10)))) else (if (-y4_7) ≤ 50 then (some ((-y4_7, s7))) else ((fX3_fail (2 : Int32) (nI q) s7).bind (fun s11 => some ((0, s11)))))) else (if y4_7 < nI l - 51 then ((fX3_fail (2 : Int32) (nI q) s7).bind (fun s8 => some ((0, s8)))) else (if y4_7 ≤ 50 then (some ((y4_7, s7))) else ((fX3_fail (2 : Int32) (nI q) s7).bind (fun s9 => some ((0, s9))))))) 1100 (0 : Int32) a) else some (0, cFail a q 1 q) := by
      unfold fX3_readNumber
      rw [if_neg cN, h3, p_byteAt h ha (by omega), ecq]
      simp only [Option.bind_some, c_dgt hc, if_bi]
      cases dgt (T q)
      · unfold cFail
        rw [uI_self h3]
        simp only [h3]
        rfl
      · rfl
    have eM : fX8_number m = if dgt (T q) then (fX8_number_L65 (nI q) (0 : Int32) (fun y3_7 s7 => if y3_7 ≤ 50 then (some ((y3_7, s7))) else ((fX8_fails (2 : Int32) (nI q) s7).bind (fun s8 => some ((y3_7, s8))))) 1100 (0 : Int32) m) else some (0, mFail m q 1 q) := by
      unfold fX8_number
      rw [m_sign h hm (by omega) h5, ecq]
      simp only [Option.bind_some, h5, Int32.add_zero]
      rw [if_neg cN, vI_self h5, m_sign h hm (by omega) h5, ecq]
      simp only [Option.bind_some, m_dgt hc, if_bi, h5]
      rw [m_fails 1 _ h7]
      cases dgt (T q)
      · unfold mFail
        rw [vI_self h5]
        rfl
      · rfl
    cases g : dgt (T q)
    · left
      rw [eC.trans (if_neg (by rw [g]; decide)), eM.trans (if_neg (by rw [g]; decide))]
      exact ⟨q, by rw [if_neg c], by rw [ecq]; exact g, rfl, rfl⟩
    · right
      rw [eC.trans (if_pos g), eM.trans (if_pos g)]
      obtain ⟨p', S, v, r1, r2, r3, r4, r5, r6⟩ := num_L h (nI (T q)) (nI l - 51) (nI q) (nI q) 0 (fun y4_7 s7 => if nI (T q) = 45 then (if (-y4_7) < nI l - 51 then ((fX3_fail (2 : Int32) (nI q) s7).bind (fun s10 => some ((0, s10)))) else (if (-y4_7) ≤ 50 then (some ((-y4_7, s7))) else ((fX3_fail (2 : Int32) (nI q) s7).bind (fun s11 => some ((0, s11)))))) else (if y4_7 < nI l - 51 then ((fX3_fail (2 : Int32) (nI q) s7).bind (fun s8 => some ((0, s8)))) else (if y4_7 ≤ 50 then (some ((y4_7, s7))) else ((fX3_fail (2 : Int32) (nI q) s7).bind (fun s9 => some ((0, s9))))))) (fun y3_7 s7 => if y3_7 ≤ 50 then (some ((y3_7, s7))) else ((fX8_fails (2 : Int32) (nI q) s7).bind (fun s8 => some ((y3_7, s8))))) (L - q) 1100 q 0 0 a m (by omega) (by omega) ha hm h3 h5 (Or.inl ⟨by omega, rfl⟩) (by omega)
      have pq : q < p' := r1.2 (by rw [ecq]; exact g)
      rw [nI_0] at r5 r6
      rw [r5, r6]
      simp only [if_neg cN]
      rcases r3 with ⟨s1, s2⟩ | ⟨s1, s2⟩
      · right
        have sg := (sgn_all S s1).1
        refine ⟨p', S + 51, pq, r2, by omega, by omega, ?_, ?_⟩
        · rw [sg]
          by_cases k : S + 51 < l
          · rw [if_pos k, if_pos ((km_lt (by omega) (by omega)).mpr k)]
            rfl
          · rw [if_neg k, if_neg (fun z => k ((km_lt (by omega) (by omega)).mp z)), top_50, if_pos ((km_le (by omega) (by omega)).mpr (by omega))]
        · rw [s2, if_pos (show nI S ≤ 50 from nI_le (b := 50) s1 (by decide)), sg]
      · left
        have bg := big_neg S r4 s1
        refine ⟨p', nI v, pq, r2, ?_, ?_⟩
        · by_cases k : nI S < nI l - 51
          · rw [if_pos k]
            rfl
          · rw [if_neg k, if_neg bg.2]
            rfl
        · rw [s2, if_neg (show ¬ nI 51 ≤ 50 by decide), m_fails 2 _ (show mI (vI m 5 (nI p')) 7 = 0 from h7)]
          rfl
