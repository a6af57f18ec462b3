/-! ===== reading: the text on both sides ===== -/
def ch (T : Nat → Nat) (L p : Nat) : Nat := if p < L then T p else 0
def skF (T : Nat → Nat) : Nat → Nat → Nat
  | 0, p => p
  | d + 1, p => if T p = 32 ∨ T p = 10 then skF T d (p + 1) else p
def sk (T : Nat → Nat) (L p : Nat) : Nat := skF T (L - p) p
theorem sk_lt (T : Nat → Nat) {L p : Nat} (h : p < L) : sk T L p = if T p = 32 ∨ T p = 10 then sk T L (p + 1) else p := by
  unfold sk
  rw [show L - p = (L - (p + 1)) + 1 from by omega, skF]
theorem sk_ge (T : Nat → Nat) {L p : Nat} (h : L ≤ p) : sk T L p = p := by
  unfold sk
  rw [show L - p = 0 from by omega, skF]
theorem sk_ok (T : Nat → Nat) {L : Nat} : ∀ (d p : Nat), p + d = L → p ≤ sk T L p ∧ sk T L p ≤ L ∧ (sk T L p < L → T (sk T L p) ≠ 32 ∧ T (sk T L p) ≠ 10) := by
  intro d
  induction d with
  | zero =>
    intro p h
    rw [sk_ge T (by omega)]
    exact ⟨Nat.le_refl _, by omega, fun z => by omega⟩
  | succ d ih =>
    intro p h
    rw [sk_lt T (by omega)]
    by_cases c : T p = 32 ∨ T p = 10
    · rw [if_pos c]
      have := ih (p + 1) (by omega)
      exact ⟨by omega, this.2.1, this.2.2⟩
    · rw [if_neg c]
      exact ⟨Nat.le_refl _, by omega, fun _ => ⟨fun z => c (Or.inl z), fun z => c (Or.inr z)⟩⟩
theorem sk_le (T : Nat → Nat) {L p : Nat} (h : p ≤ L) : p ≤ sk T L p ∧ sk T L p ≤ L := ⟨(sk_ok T (L - p) p (by omega)).1, (sk_ok T (L - p) p (by omega)).2.1⟩
theorem sk_sk (T : Nat → Nat) {L p : Nat} (h : p ≤ L) : sk T L (sk T L p) = sk T L p := by
  have k := sk_ok T (L := L) (L - p) p (by omega)
  by_cases c : sk T L p < L
  · have := k.2.2 c
    rw [sk_lt T c, if_neg (fun z => z.elim this.1 this.2)]
  · rw [sk_ge T (by omega)]
def TX (T : Nat → Nat) (L : Nat) : Prop := L ≤ 200 ∧ ∀ k, k < L → 0 < T k ∧ T k < 256
def cTx (T : Nat → Nat) (L : Nat) (a : cS) : Prop := sI a 2 = nI L ∧ ∀ k, k < L → sT a k = nI (T k)
def mTx (T : Nat → Nat) (L : Nat) (m : mS) : Prop := mI m 3 = nI L ∧ ∀ k, k < L → mT m k = nI (T k)
theorem ch_lt {T : Nat → Nat} {L : Nat} (h : TX T L) (p : Nat) : ch T L p < 256 := by
  unfold ch
  split
  · exact (h.2 p ‹_›).2
  · decide
theorem ch_0 {T : Nat → Nat} {L : Nat} (h : TX T L) (p : Nat) : ch T L p = 0 ↔ L ≤ p := by
  unfold ch
  by_cases c : p < L
  · rw [if_pos c]
    have := (h.2 p c).1
    omega
  · rw [if_neg c]
    omega
theorem ch_sk {T : Nat → Nat} {L p : Nat} (hp : p ≤ L) : ch T L (sk T L p) ≠ 32 ∧ ch T L (sk T L p) ≠ 10 := by
  unfold ch
  by_cases c : sk T L p < L
  · rw [if_pos c]
    exact (sk_ok T (L - p) p (by omega)).2.2 c
  · rw [if_neg c]
    decide
theorem ceq {c d : Nat} (hc : c < 256) (hd : d < 256) : nI c = nI d ↔ c = d := nI_eq (by omega) (by omega)
theorem p_byteAt {T : Nat → Nat} {L : Nat} (h : TX T L) {a : cS} (ha : cTx T L a) {p : Nat} (hp : p < 1000) : fX4_byteAt (nI p) a = some (nI (ch T L p), a) := by
  unfold fX4_byteAt ch
  have := h.1
  rw [if_neg (nI_pos (by omega)), ha.1]
  by_cases c : p < L
  · rw [if_neg (nI_ge c (by omega)), if_pos (vin200 (by omega)), cl200 (by omega), ha.2 p c, if_pos c]
  · rw [if_pos (nI_le (by omega) (by omega)), if_neg c]
    rfl
theorem uI_self {s : cS} {k : Nat} {v : Int32} (h : sI s k = v) : uI s k v = s := by
  subst h
  unfold uI sI
  rw [zu_self]
theorem uI_twice (s : cS) (k : Nat) (v w : Int32) : uI (uI s k v) k w = uI s k w := by
  unfold uI
  rw [zu_twice]
theorem vI_self {s : mS} {k : Nat} {v : Int32} (h : mI s k = v) : vI s k v = s := by
  subst h
  unfold vI mI
  rw [zu_self]
theorem vI_twice (s : mS) (k : Nat) (v w : Int32) : vI (vI s k v) k w = vI s k w := by
  unfold vI
  rw [zu_twice]
theorem p_blanks_L {T : Nat → Nat} {L : Nat} (h : TX T L) : ∀ (d fuel p : Nat) (a : cS), p + d = L → d < fuel → cTx T L a → sI a 3 = nI p → fX3_passBlanks_L0 fuel a = some (uI a 3 (nI (sk T L p))) := by
  have hL := h.1
  intro d
  induction d with
  | zero =>
    intro fuel p a hp hf ha h3
    obtain ⟨f, rfl⟩ : ∃ f, fuel = f + 1 := ⟨fuel - 1, by omega⟩
    rw [fX3_passBlanks_L0, fX4_length, ha.1, h3, if_pos (nI_le (by omega) (by omega)), sk_ge T (by omega), uI_self h3]
  | succ d ih =>
    intro fuel p a hp hf ha h3
    obtain ⟨f, rfl⟩ : ∃ f, fuel = f + 1 := ⟨fuel - 1, by omega⟩
    have hc := ch_lt h p
    have ec : ch T L p = T p := if_pos (by omega)
    rw [fX3_passBlanks_L0, fX4_length, ha.1, h3, if_neg (nI_ge (by omega) (by omega)), p_byteAt h ha (by omega), sk_lt T (by omega)]
    simp only [Option.bind_some, h3]
    rw [ec] at hc ⊢
    by_cases c : T p = 32
    · rw [if_pos (by rw [c]; rfl), if_pos (Or.inl c), nI_1, ih f (p + 1) (uI a 3 (nI (p + 1))) (by omega) (by omega) ⟨ha.1, ha.2⟩ rfl, uI_twice]
    · rw [if_neg (show ¬ nI (T p) = 32 from fun z => c ((ceq (d := 32) hc (by decide)).mp z))]
      rw [p_byteAt h ha (by omega)]
      simp only [Option.bind_some]
      rw [ec]
      by_cases c2 : T p = 10
      · rw [if_pos (by rw [c2]; rfl), if_pos (Or.inr c2), h3, nI_1, ih f (p + 1) (uI a 3 (nI (p + 1))) (by omega) (by omega) ⟨ha.1, ha.2⟩ rfl, uI_twice]
      · rw [if_neg (show ¬ nI (T p) = 10 from fun z => c2 ((ceq (d := 10) hc (by decide)).mp z)), if_neg (fun z => z.elim c c2), uI_self h3]
theorem p_blanks {T : Nat → Nat} {L p : Nat} (h : TX T L) {a : cS} (ha : cTx T L a) (hp : p ≤ L) (h3 : sI a 3 = nI p) : fX3_passBlanks a = some (uI a 3 (nI (sk T L p))) := p_blanks_L h (L - p) 1100 p a (by omega) (by have := h.1; omega) ha h3
theorem m_sign {T : Nat → Nat} {L p : Nat} (h : TX T L) {m : mS} (hm : mTx T L m) (hp : p < 1000) (h5 : mI m 5 = nI p) : fX8_sign m = some (nI (ch T L p), m) := by
  unfold fX8_sign ch
  have := h.1
  rw [hm.1, h5]
  by_cases c : p < L
  · rw [if_neg (nI_ge c (by omega)), if_pos (vin200 (by omega)), cl200 (by omega), hm.2 p c, if_pos c]
  · rw [if_pos (nI_le (by omega) (by omega)), if_neg c]
    rfl
theorem m_blanks_L {T : Nat → Nat} {L : Nat} (h : TX T L) (k0 : mS → Option (Int32 × mS)) : ∀ (d fuel p : Nat) (m : mS), p + d = L → d < fuel → mTx T L m → mI m 5 = nI p → fX8_signBehindBlanks_L0 k0 fuel m = k0 (vI m 5 (nI (sk T L p))) := by
  have hL := h.1
  intro d
  induction d with
  | zero =>
    intro fuel p m hp hf hm h5
    obtain ⟨f, rfl⟩ : ∃ f, fuel = f + 1 := ⟨fuel - 1, by omega⟩
    have ec : ch T L p = 0 := if_neg (by omega)
    rw [fX8_signBehindBlanks_L0, m_sign h hm (by omega) h5, ec, sk_ge T (by omega), vI_self h5]
    simp only [Option.bind_some]
    rw [if_neg (by decide), m_sign h hm (by omega) h5, ec]
    simp only [Option.bind_some]
    rw [if_neg (by decide)]
  | succ d ih =>
    intro fuel p m hp hf hm h5
    obtain ⟨f, rfl⟩ : ∃ f, fuel = f + 1 := ⟨fuel - 1, by omega⟩
    have hc := ch_lt h p
    have ec : ch T L p = T p := if_pos (by omega)
    rw [fX8_signBehindBlanks_L0, m_sign h hm (by omega) h5, sk_lt T (by omega)]
    simp only [Option.bind_some, h5]
    rw [ec] at hc ⊢
    by_cases c : T p = 32
    · rw [if_pos (by rw [c]; rfl), if_pos (Or.inl c), nI_1, ih f (p + 1) (vI m 5 (nI (p + 1))) (by omega) (by omega) ⟨hm.1, hm.2⟩ rfl, vI_twice]
    · rw [if_neg (show ¬ nI (T p) = 32 from fun z => c ((ceq (d := 32) hc (by decide)).mp z)), m_sign h hm (by omega) h5]
      simp only [Option.bind_some]
      rw [ec]
      by_cases c2 : T p = 10
      · rw [if_pos (by rw [c2]; rfl), if_pos (Or.inr c2), h5, nI_1, ih f (p + 1) (vI m 5 (nI (p + 1))) (by omega) (by omega) ⟨hm.1, hm.2⟩ rfl, vI_twice]
      · rw [if_neg (show ¬ nI (T p) = 10 from fun z => c2 ((ceq (d := 10) hc (by decide)).mp z)), if_neg (fun z => z.elim c c2), vI_self h5]
theorem m_blanks {T : Nat → Nat} {L p : Nat} (h : TX T L) {m : mS} (hm : mTx T L m) (hp : p ≤ L) (h5 : mI m 5 = nI p) : fX8_signBehindBlanks m = some (nI (ch T L (sk T L p)), vI m 5 (nI (sk T L p))) := by
  have hL := h.1
  have := (sk_le T hp).2
  unfold fX8_signBehindBlanks
  rw [m_blanks_L h _ (L - p) 1100 p m (by omega) (by omega) hm h5]
  simp only []
  rw [m_sign h (m := vI m 5 (nI (sk T L p))) ⟨hm.1, hm.2⟩ (by omega) rfl]
  rfl
theorem m_fails (k : Int32) (pl : Int32) {m : mS} (h : mI m 7 = 0) : fX8_fails k pl m = some (vI (vI m 7 k) 8 pl) := by
  unfold fX8_fails
  rw [if_pos h]
theorem m_expects {T : Nat → Nat} {L p e : Nat} (h : TX T L) {m : mS} (hm : mTx T L m) (hp : p ≤ L) (h5 : mI m 5 = nI p) (h7 : mI m 7 = 0) (he : e < 256) : fX8_expects (nI e) m = if ch T L (sk T L p) = e then some (vI m 5 (nI (sk T L p + 1))) else some (vI (vI (vI m 5 (nI (sk T L p))) 7 1) 8 (nI (sk T L p))) := by
  unfold fX8_expects
  rw [m_blanks h hm hp h5]
  simp only [Option.bind_some]
  have e5 : mI (vI m 5 (nI (sk T L p))) 5 = nI (sk T L p) := rfl
  by_cases c : ch T L (sk T L p) = e
  · rw [if_pos c, if_pos (by rw [c]), e5, nI_1, vI_twice]
  · rw [if_neg c, if_neg (fun z => c ((ceq (ch_lt h _) he).mp z)), m_fails 1 _ (show mI (vI m 5 (nI (sk T L p))) 7 = 0 from h7), e5]
    rfl
/-! the class's turns -/
def Go (n : Nat) (a a' : cS) : Prop := ∀ (k0 k1 : cS → Option cS) (fuel t : Nat), t + n ≤ 201 → fX3_read_L7 k0 k1 (fuel + n) (nI t) a = fX3_read_L7 k0 k1 fuel (nI (t + n)) a'
theorem Go.refl (a : cS) : Go 0 a a := fun _ _ _ _ _ => rfl
theorem Go.trans {n k : Nat} {a b c : cS} (h : Go n a b) (g : Go k b c) : Go (n + k) a c := fun k0 k1 fuel t ht => by
  rw [show fuel + (n + k) = (fuel + k) + n from by omega, h k0 k1 (fuel + k) t (by omega), g k0 k1 fuel (t + n) (by omega), Nat.add_assoc]
theorem Go.one {T : Nat → Nat} {L p : Nat} (h : TX T L) {a a' : cS} (ha : cTx T L a) (hp : p ≤ L) (h3 : sI a 3 = nI p) (h9 : sI a 9 = 0) (hq : sk T L p < L) (hs : fX3_readSign (nI (T (sk T L p))) (uI a 3 (nI (sk T L p))) = some a') : Go 1 a a' := by
  intro k0 k1 fuel t ht
  have hL := h.1
  have ec : ch T L (sk T L p) = T (sk T L p) := if_pos hq
  rw [fX3_read_L7, if_neg (show ¬ (200 : Int32) < nI t from nI_nlt (a := 200) (by omega) (by decide)), if_pos h9, p_blanks h ha hp h3]
  simp only [Option.bind_some]
  have e3 : sI (uI a 3 (nI (sk T L p))) 3 = nI (sk T L p) := rfl
  have e2 : fX4_length (uI a 3 (nI (sk T L p))) = nI L := ha.1
  rw [e3, e2, if_pos (nI_lt hq (by omega)), p_byteAt h (a := uI a 3 (nI (sk T L p))) ⟨ha.1, ha.2⟩ (by omega), ec]
  simp only [Option.bind_some, hs, nI_1]
/-! ===== reading: numbers ===== -/
def dgt (c : Nat) : Bool := decide (48 ≤ c ∧ c ≤ 57)
theorem dgt_all : ∀ c, c < 256 → (if nI c < 48 then (0 : Int32) else if 57 < nI c then 0 else 1) = bi (dgt c) := by decide +kernel
theorem m_dgt {c : Nat} (h : c < 256) (m : mS) : fX8_in (nI c) 48 57 m = bi (dgt c) := dgt_all c h
theorem c_dgt {c : Nat} (h : c < 256) (a : cS) : fX3_isDigit (nI c) a = bi (dgt c) := dgt_all c h
theorem dgt_0 : dgt 0 = false := by decide
theorem num_L {T : Nat → Nat} {L : Nat} (h : TX T L) (x1 x2 x3 y1 y2 : Int32) (k0 : Int32 → cS → Option (Int32 × cS)) (km : Int32 → mS → Option (Int32 × mS)) : ∀ (d fuel p S v : Nat) (a : cS) (m : mS), p + d = L → d < fuel → cTx T L a → mTx T L m → sI a 3 = nI p → mI m 5 = nI p → (S ≤ 50 ∧ v = S ∨ 50 < S ∧ v = 51) → S < 1000 → ∃ p' S' v', (p ≤ p' ∧ (dgt (ch T L p) = true → p < p')) ∧ p' ≤ L ∧ (S' ≤ 50 ∧ v' = S' ∨ 50 < S' ∧ v' = 51) ∧ S' < 1000 ∧ fX3_readNumber_L52 x1 x2 x3 k0 fuel (nI S) a = k0 (nI S') (uI a 3 (nI p')) ∧ fX8_number_L65 y1 y2 km fuel (nI v) m = km (nI v') (vI m 5 (nI p')) := by
  have hL := h.1
  intro d
  induction d with
  | zero =>
    intro fuel p S v a m hp hf ha hm h3 h5 hv hS
    obtain ⟨f, rfl⟩ : ∃ f, fuel = f + 1 := ⟨fuel - 1, by omega⟩
    have ec : ch T L p = 0 := if_neg (by omega)
    refine ⟨p, S, v, ⟨Nat.le_refl _, fun z => by rw [ec] at z; exact Bool.noConfusion z⟩, by omega, hv, hS, ?_, ?_⟩
    · rw [fX3_readNumber_L52, fX4_length, ha.1, h3, if_pos (nI_le (by omega) (by omega)), uI_self h3]
    · rw [fX8_number_L65, m_sign h hm (by omega) h5, ec]
      simp only [Option.bind_some, m_dgt (show 0 < 256 by decide), dgt_0, if_bi, Bool.false_eq_true, if_false]
      rw [vI_self h5]
  | succ d ih =>
    intro fuel p S v a m hp hf ha hm h3 h5 hv hS
    obtain ⟨f, rfl⟩ : ∃ f, fuel = f + 1 := ⟨fuel - 1, by omega⟩
    have hc := ch_lt h p
    have ec : ch T L p = T p := if_pos (by omega)
    rw [fX3_readNumber_L52, fX4_length, ha.1, h3, if_neg (nI_ge (by omega) (by omega)), p_byteAt h ha (by omega), fX8_number_L65, m_sign h hm (by omega) h5]
    rw [ec] at hc ⊢
    simp only [Option.bind_some, m_dgt hc, c_dgt hc, if_bi]
    cases g : dgt (T p)
    · simp only [Bool.false_eq_true, if_false]
      exact ⟨p, S, v, ⟨Nat.le_refl _, fun z => z.elim⟩, by omega, hv, hS, by rw [uI_self h3], by rw [vI_self h5]⟩
    · simp only [if_true]
      have gd : 48 ≤ T p ∧ T p ≤ 57 := of_decide_eq_true g
      rw [m_sign h hm (by omega) h5]
      simp only [Option.bind_some, h3, h5]
      rw [ec]
      have ev : (10 : Int32) * nI v + nI (T p) - 48 = nI (10 * v + T p - 48) := by
        rw [show (10 : Int32) * nI v = nI (10 * v) from pk_mul 10 v, nI_add]
        exact pk_sub (b := 48) (by omega)
      rw [ev]
      have ew : (if 51 < nI (10 * v + T p - 48) then (51 : Int32) else nI (10 * v + T p - 48)) = nI (if 51 < 10 * v + T p - 48 then 51 else 10 * v + T p - 48) := by
        by_cases c : 51 < 10 * v + T p - 48
        · rw [if_pos c, if_pos (show (51 : Int32) < nI (10 * v + T p - 48) from nI_lt (a := 51) c (by omega))]
          rfl
        · rw [if_neg c, if_neg (show ¬ (51 : Int32) < nI (10 * v + T p - 48) from nI_nlt (a := 51) (by omega) (by decide))]
      rw [ew]
      by_cases c : 50 < S
      · rw [if_pos (show (50 : Int32) < nI S from nI_lt (a := 50) c (by omega)), nI_1 p]
        obtain ⟨p', S', v', r1, r2, r3, r4, r5, r6⟩ := ih f (p + 1) S (if 51 < 10 * v + T p - 48 then 51 else 10 * v + T p - 48) (uI a 3 (nI (p + 1))) (vI m 5 (nI (p + 1))) (by omega) (by omega) ⟨ha.1, ha.2⟩ ⟨hm.1, hm.2⟩ rfl rfl (Or.inr ⟨c, by rw [if_pos (by omega)]⟩) hS
        exact ⟨p', S', v', ⟨by omega, fun _ => by omega⟩, r2, r3, r4, by rw [r5, uI_twice], by rw [r6, vI_twice]⟩
      · rw [if_neg (show ¬ (50 : Int32) < nI S from nI_nlt (a := 50) (by omega) (by decide)), p_byteAt h ha (by omega)]
        simp only [Option.bind_some]
        rw [ec, h3, nI_1 p]
        have es : nI S * 10 + (nI (T p) - 48) = nI (S * 10 + (T p - 48)) := by
          rw [show nI S * (10 : Int32) = nI (S * 10) from pk_mul S 10, show nI (T p) - (48 : Int32) = nI (T p - 48) from pk_sub (b := 48) gd.1, nI_add]
        rw [es]
        obtain ⟨p', S', v', r1, r2, r3, r4, r5, r6⟩ := ih f (p + 1) (S * 10 + (T p - 48)) (if 51 < 10 * v + T p - 48 then 51 else 10 * v + T p - 48) (uI a 3 (nI (p + 1))) (vI m 5 (nI (p + 1))) (by omega) (by omega) ⟨ha.1, ha.2⟩ ⟨hm.1, hm.2⟩ rfl rfl (by split <;> omega) (by omega)
        exact ⟨p', S', v', ⟨by omega, fun _ => by omega⟩, r2, r3, r4, by rw [r5, uI_twice], by rw [r6, vI_twice]⟩
/-- the numbers from -50 to 50, by their places -/
theorem sgn_all : ∀ S, S ≤ 50 → nI S = nI (S + 51) - 51 ∧ -nI S = nI (51 - S) - 51 := by decide +kernel
theorem km_lt {k l : Nat} (hk : k < 1000) (hl : l < 1000) : nI k - 51 < nI l - 51 ↔ k < l := by
  rw [Int32.lt_iff_toInt_lt]
  have a := pk_sub_toInt (a := k) (b := 51) (by omega) (by decide)
  have b := pk_sub_toInt (a := l) (b := 51) (by omega) (by decide)
  rw [show nI 51 = (51 : Int32) from rfl] at a b
  rw [a, b]
  omega
theorem km_le {k l : Nat} (hk : k < 1000) (hl : l < 1000) : nI k - 51 ≤ nI l - 51 ↔ k ≤ l := by
  rw [← Int32.not_lt, km_lt hl hk]
  omega
theorem big_neg : ∀ S, S < 1000 → 50 < S → -nI S < nI 1 - 51 ∧ ¬ nI S ≤ (50 : Int32) := by decide +kernel
theorem lst_1 : (-50 : Int32) = nI 1 - 51 := by decide
theorem top_50 : (50 : Int32) = nI 101 - 51 := by decide
/-- the two failed -/
def cFail (a : cS) (p kd pl : Nat) : cS := uI (uI (uI a 3 (nI p)) 9 (nI kd)) 10 (nI pl)
def mFail (m : mS) (p kd pl : Nat) : mS := vI (vI (vI m 5 (nI p)) 7 (nI kd)) 8 (nI pl)
theorem num_both {T : Nat → Nat} {L q l : Nat} (h : TX T L) {a : cS} {m : mS} (ha : cTx T L a) (hm : mTx T L m) (hq : q < L) (h3 : sI a 3 = nI q) (h5 : mI m 5 = nI q) (h7 : mI m 7 = 0) (hl0 : 0 < l) (hl : l < 102) : (∃ p', p' = (if T q = 45 then q + 1 else q) ∧ dgt (ch T L p') = false ∧ fX3_readNumber (nI (T q)) (nI l - 51) a = some (0, cFail a p' 1 p') ∧ fX8_number m = some (0, mFail m p' 1 p')) ∨ (∃ p' r, q < p' ∧ p' ≤ L ∧ fX3_readNumber (nI (T q)) (nI l - 51) a = some (0, cFail a p' 2 q) ∧ fX8_number m = some (r, mFail m p' 2 q)) ∨ (∃ p' k, q < p' ∧ p' ≤ L ∧ 0 < k ∧ k < 102 ∧ fX3_readNumber (nI (T q)) (nI l - 51) a = (if k < l then some (0, cFail a p' 2 q) else some (nI k - 51, uI a 3 (nI p'))) ∧ fX8_number m = some (nI k - 51, vI m 5 (nI p'))) := by
  have hL := h.1
  have hc : T q < 256 := (h.2 q hq).2
  have ecq : ch T L q = T q := if_pos hq
  by_cases c : T q = 45
  · -- a minus
    have cN : nI (T q) = 45 := by rw [c]; rfl
    have hq1 := ch_lt h (q + 1)
    have e3 : sI (uI a 3 (nI (q + 1))) 3 = nI (q + 1) := rfl
    have eC : fX3_readNumber (nI (T q)) (nI l - 51) a = if dgt (ch T L (q + 1)) then (fX3_readNumber_L52 45 (nI l - 51) (nI q) (fun y4_15 s15 => if (45 : Int32) = 45 then (if (-y4_15) < nI l - 51 then ((fX3_fail (2 : Int32) (nI q) s15).bind (fun s18 => some ((0, s18)))) else (if (-y4_15) ≤ 50 then (some ((-y4_15, s15))) else ((fX3_fail (2 : Int32) (nI q) s15).bind (fun s19 => some ((0, s19)))))) else (if y4_15 < nI l - 51 then ((fX3_fail (2 : Int32) (nI q) s15).bind (fun s16 => some ((0, s16)))) else (if y4_15 ≤ 50 then (some ((y4_15, s15))) else ((fX3_fail (2 : Int32) (nI q) s15).bind (fun s17 => some ((0, s17))))))) 1100 (0 : Int32) (uI a 3 (nI (q + 1)))) else some (0, cFail a (q + 1) 1 (q + 1)) := by
      unfold fX3_readNumber
      rw [if_pos cN, h3, nI_1, cN, e3, p_byteAt h (a := uI a 3 (nI (q + 1))) ⟨ha.1, ha.2⟩ (by omega)]
      simp only [Option.bind_some, c_dgt hq1, if_bi]
      cases dgt (ch T L (q + 1))
      · rfl
      · rfl
    have eM : fX8_number m = if dgt (ch T L (q + 1)) then (fX8_number_L65 (nI q) (1 : Int32) (fun y3_12 s12 => if y3_12 ≤ 50 then (some ((-y3_12, s12))) else ((fX8_fails (2 : Int32) (nI q) s12).bind (fun s13 => some ((-y3_12, s13))))) 1100 (0 : Int32) (vI m 5 (nI (q + 1)))) else some (0, mFail m (q + 1) 1 (q + 1)) := by
      unfold fX8_number
      rw [m_sign h hm (by omega) h5, ecq]
      simp only [Option.bind_some, h5]
      rw [if_pos cN, nI_1, m_sign h (m := vI m 5 (nI (q + 1))) ⟨hm.1, hm.2⟩ (p := q + 1) (by omega) rfl]
      simp only [Option.bind_some, m_dgt hq1, if_bi]
      rw [m_fails 1 _ (show mI (vI m 5 (nI (q + 1))) 7 = 0 from h7)]
      cases dgt (ch T L (q + 1))
      · rfl
      · rfl
    cases g : dgt (ch T L (q + 1))
    · left
      rw [eC.trans (if_neg (by rw [g]; decide)), eM.trans (if_neg (by rw [g]; decide))]
      exact ⟨q + 1, by rw [if_pos c], g, rfl, rfl⟩
    · right
      rw [eC.trans (if_pos g), eM.trans (if_pos g)]
      have hq2 : q + 1 ≤ L := by omega
      obtain ⟨p', S, v, r1, r2, r3, r4, r5, r6⟩ := num_L h 45 (nI l - 51) (nI q) (nI q) 1 (fun y4_15 s15 => if (45 : Int32) = 45 then (if (-y4_15) < nI l - 51 then ((fX3_fail (2 : Int32) (nI q) s15).bind (fun s18 => some ((0, s18)))) else (if (-y4_15) ≤ 50 then (some ((-y4_15, s15))) else ((fX3_fail (2 : Int32) (nI q) s15).bind (fun s19 => some ((0, s19)))))) else (if y4_15 < nI l - 51 then ((fX3_fail (2 : Int32) (nI q) s15).bind (fun s16 => some ((0, s16)))) else (if y4_15 ≤ 50 then (some ((y4_15, s15))) else ((fX3_fail (2 : Int32) (nI q) s15).bind (fun s17 => some ((0, s17))))))) (fun y3_12 s12 => if y3_12 ≤ 50 then (some ((-y3_12, s12))) else ((fX8_fails (2 : Int32) (nI q) s12).bind (fun s13 => some ((-y3_12, s13))))) (L - (q + 1)) 1100 (q + 1) 0 0 (uI a 3 (nI (q + 1))) (vI m 5 (nI (q + 1))) (by omega) (by omega) ⟨ha.1, ha.2⟩ ⟨hm.1, hm.2⟩ rfl rfl (Or.inl ⟨by omega, rfl⟩) (by omega)
      rw [nI_0, uI_twice] at r5
      rw [nI_0, vI_twice] at r6
      rw [r5, r6]
      simp only [if_true]
      rcases r3 with ⟨s1, s2⟩ | ⟨s1, s2⟩
      · right
        have sg := (sgn_all S s1).2
        refine ⟨p', 51 - S, by omega, r2, by omega, by omega, ?_, ?_⟩
        · rw [sg]
          by_cases k : 51 - S < l
          · rw [if_pos k, if_pos ((km_lt (by omega) (by omega)).mpr k)]
            rfl
          · rw [if_neg k, if_neg (fun z => k ((km_lt (by omega) (by omega)).mp z)), top_50, if_pos ((km_le (by omega) (by omega)).mpr (by omega))]
        · rw [s2, if_pos (show nI S ≤ 50 from nI_le (b := 50) s1 (by decide)), sg]
      · left
        have bg := big_neg S r4 s1
        refine ⟨p', -nI v, by omega, r2, ?_, ?_⟩
        · rw [if_pos (Int32.lt_of_lt_of_le bg.1 ((km_le (by omega) (by omega)).mpr (by omega)))]
          rfl
        · rw [s2, if_neg (show ¬ nI 51 ≤ 50 by decide), m_fails 2 _ (show mI (vI m 5 (nI p')) 7 = 0 from h7)]
          rfl
  · -- no minus
    have cN : ¬ nI (T q) = 45 := fun z => c ((ceq (d := 45) hc (by decide)).mp z)
    have eC : fX3_readNumber (nI (T q)) (nI l - 51) a = if dgt (T q) then (fX3_readNumber_L52 (nI (T q)) (nI l - 51) (nI q) (fun y4_7 s7 => if nI (T q) = 45 then (if (-y4_7) < nI l - 51 then ((fX3_fail (2 : Int32) (nI q) s7).bind (fun s10 => some ((0, s10)))) else (if (-y4_7) ≤ 50 then (some ((-y4_7, s7))) else ((fX3_fail (2 : Int32) (nI q) s7).bind (fun s11 => some ((0, s11)))))) else (if y4_7 < nI l - 51 then ((fX3_fail (2 : Int32) (nI q) s7).bind (fun s8 => some ((0, s8)))) else (if y4_7 ≤ 50 then (some ((y4_7, s7))) else ((fX3_fail (2 : Int32) (nI q) s7).bind (fun s9 => some ((0, s9))))))) 1100 (0 : Int32) a) else some (0, cFail a q 1 q) := by
      unfold fX3_readNumber
      rw [if_neg cN, h3, p_byteAt h ha (by omega), ecq]
      simp only [Option.bind_some, c_dgt hc, if_bi]
      cases dgt (T q)
      · unfold cFail
        rw [uI_self h3]
        simp only [h3]
        rfl
      · rfl
    have eM : fX8_number m = if dgt (T q) then (fX8_number_L65 (nI q) (0 : Int32) (fun y3_7 s7 => if y3_7 ≤ 50 then (some ((y3_7, s7))) else ((fX8_fails (2 : Int32) (nI q) s7).bind (fun s8 => some ((y3_7, s8))))) 1100 (0 : Int32) m) else some (0, mFail m q 1 q) := by
      unfold fX8_number
      rw [m_sign h hm (by omega) h5, ecq]
      simp only [Option.bind_some, h5, Int32.add_zero]
      rw [if_neg cN, vI_self h5, m_sign h hm (by omega) h5, ecq]
      simp only [Option.bind_some, m_dgt hc, if_bi, h5]
      rw [m_fails 1 _ h7]
      cases dgt (T q)
      · unfold mFail
        rw [vI_self h5]
        rfl
      · rfl
    cases g : dgt (T q)
    · left
      rw [eC.trans (if_neg (by rw [g]; decide)), eM.trans (if_neg (by rw [g]; decide))]
      exact ⟨q, by rw [if_neg c], by rw [ecq]; exact g, rfl, rfl⟩
    · right
      rw [eC.trans (if_pos g), eM.trans (if_pos g)]
      obtain ⟨p', S, v, r1, r2, r3, r4, r5, r6⟩ := num_L h (nI (T q)) (nI l - 51) (nI q) (nI q) 0 (fun y4_7 s7 => if nI (T q) = 45 then (if (-y4_7) < nI l - 51 then ((fX3_fail (2 : Int32) (nI q) s7).bind (fun s10 => some ((0, s10)))) else (if (-y4_7) ≤ 50 then (some ((-y4_7, s7))) else ((fX3_fail (2 : Int32) (nI q) s7).bind (fun s11 => some ((0, s11)))))) else (if y4_7 < nI l - 51 then ((fX3_fail (2 : Int32) (nI q) s7).bind (fun s8 => some ((0, s8)))) else (if y4_7 ≤ 50 then (some ((y4_7, s7))) else ((fX3_fail (2 : Int32) (nI q) s7).bind (fun s9 => some ((0, s9))))))) (fun y3_7 s7 => if y3_7 ≤ 50 then (some ((y3_7, s7))) else ((fX8_fails (2 : Int32) (nI q) s7).bind (fun s8 => some ((y3_7, s8))))) (L - q) 1100 q 0 0 a m (by omega) (by omega) ha hm h3 h5 (Or.inl ⟨by omega, rfl⟩) (by omega)
      have pq : q < p' := r1.2 (by rw [ecq]; exact g)
      rw [nI_0] at r5 r6
      rw [r5, r6]
      simp only [if_neg cN]
      rcases r3 with ⟨s1, s2⟩ | ⟨s1, s2⟩
      · right
        have sg := (sgn_all S s1).1
        refine ⟨p', S + 51, pq, r2, by omega, by omega, ?_, ?_⟩
        · rw [sg]
          by_cases k : S + 51 < l
          · rw [if_pos k, if_pos ((km_lt (by omega) (by omega)).mpr k)]
            rfl
          · rw [if_neg k, if_neg (fun z => k ((km_lt (by omega) (by omega)).mp z)), top_50, if_pos ((km_le (by omega) (by omega)).mpr (by omega))]
        · rw [s2, if_pos (show nI S ≤ 50 from nI_le (b := 50) s1 (by decide)), sg]
      · left
        have bg := big_neg S r4 s1
        refine ⟨p', nI v, pq, r2, ?_, ?_⟩
        · by_cases k : nI S < nI l - 51
          · rw [if_pos k]
            rfl
          · rw [if_neg k, if_neg bg.2]
            rfl
        · rw [s2, if_neg (show ¬ nI 51 ≤ 50 by decide), m_fails 2 _ (show mI (vI m 5 (nI p')) 7 = 0 from h7)]
          rfl
/-! ===== reading: what stands in braces ===== -/
/-- how a reading ends with an error -/
def Err (T : Nat → Nat) (L : Nat) (a : cS) (p kd pl : Nat) : Prop := ∃ n a', Go n a a' ∧ n + p ≤ L ∧ Wf a' ∧ aeq a a' ∧ (kd = 1 ∨ kd = 2) ∧ pl ≤ L ∧ ((sI a' 9 = nI kd ∧ sI a' 10 = nI pl) ∨ (sI a' 9 = 0 ∧ sI a' 4 ≠ 0 ∧ (∃ pe, pe ≤ L ∧ sI a' 3 = nI pe ∧ sk T L pe = L) ∧ kd = 1 ∧ pl = L))
theorem Err.step {T : Nat → Nat} {L n p p' kd pl : Nat} {a a' : cS} (g : Go n a a') (h : n + p ≤ p') (e : aeq a a') (h2 : Err T L a' p' kd pl) : Err T L a p kd pl := by
  obtain ⟨k, b, b1, b2, b3, b4, b5⟩ := h2
  exact ⟨n + k, b, g.trans b1, by omega, b3, aeq_trans e b4, b5⟩
theorem Err.fin {T : Nat → Nat} {L p kd pl : Nat} {a : cS} (W : Wf a) (h : p ≤ L) (hk : kd = 1 ∨ kd = 2) (hp : pl ≤ L) (h9 : sI a 9 = nI kd) (h10 : sI a 10 = nI pl) : Err T L a p kd pl := ⟨0, a, Go.refl a, by omega, W, aeq_refl a, hk, hp, Or.inl ⟨h9, h10⟩⟩
theorem Err.eot {T : Nat → Nat} {L p : Nat} {a : cS} (W : Wf a) (h : p ≤ L) (h9 : sI a 9 = 0) (h4 : sI a 4 ≠ 0) {pe : Nat} (h1 : pe ≤ L) (h3 : sI a 3 = nI pe) (hs : sk T L pe = L) : Err T L a p 1 L := ⟨0, a, Go.refl a, by omega, W, aeq_refl a, Or.inl rfl, Nat.le_refl _, Or.inr ⟨h9, h4, ⟨pe, h1, h3, hs⟩, rfl, rfl⟩⟩
def AtM (L : Nat) (m : mS) : Prop := ∃ x, x ≤ L ∧ mI m 5 = nI x
/-- what an item leaves as it was -/
def cfi (a a' : cS) : Prop := Wf a' ∧ (∀ n, n ≠ 33 → cB a' n = cB a n) ∧ (∀ k, k ≠ 3 → k ≠ 4 → k ≠ 7 → k ≠ 9 → k ≠ 10 → sI a' k = sI a k) ∧ sT a' = sT a ∧ (sI a' 9 = 0 → sI a 9 = 0 ∧ sI a' 10 = sI a 10)
def mfi (z : Nat) (m m' : mS) : Prop := Vm m' ∧ (∀ r, r ≠ z → mB m' r = mB m r) ∧ (∀ k, k ≠ 5 → k ≠ 7 → k ≠ 8 → mI m' k = mI m k) ∧ mT m' = mT m
theorem cfi.trans {a b c : cS} (h : cfi a b) (g : cfi b c) : cfi a c := ⟨g.1, fun n hn => (g.2.1 n hn).trans (h.2.1 n hn), fun k a b c d e => (g.2.2.1 k a b c d e).trans (h.2.2.1 k a b c d e), g.2.2.2.1.trans h.2.2.2.1, fun z => ⟨(h.2.2.2.2 (g.2.2.2.2 z).1).1, (g.2.2.2.2 z).2.trans (h.2.2.2.2 (g.2.2.2.2 z).1).2⟩⟩
theorem mfi.trans {z : Nat} {a b c : mS} (h : mfi z a b) (g : mfi z b c) : mfi z a c := ⟨g.1, fun n hn => (g.2.1 n hn).trans (h.2.1 n hn), fun k a b c => (g.2.2.1 k a b c).trans (h.2.2.1 k a b c), g.2.2.2.trans h.2.2.2⟩
theorem cfi.refl {a : cS} (W : Wf a) : cfi a a := ⟨W, fun _ _ => rfl, fun _ _ _ _ _ _ => rfl, rfl, fun z => ⟨z, rfl⟩⟩
theorem mfi.refl {z : Nat} {m : mS} (V : Vm m) : mfi z m m := ⟨V, fun _ _ => rfl, fun _ _ _ _ => rfl, rfl⟩
theorem cfi.aeq {a a' : cS} (h : cfi a a') : aeq a a' := ⟨fun n hn => h.2.1 n (by omega), h.2.2.1 0 (by decide) (by decide) (by decide) (by decide) (by decide), h.2.2.1 2 (by decide) (by decide) (by decide) (by decide) (by decide), h.2.2.2.1⟩
theorem cfi.tx {T : Nat → Nat} {L : Nat} {a a' : cS} (h : cfi a a') (ha : cTx T L a) : cTx T L a' := ⟨(h.2.2.1 2 (by decide) (by decide) (by decide) (by decide) (by decide)).trans ha.1, fun k hk => by rw [h.2.2.2.1]; exact ha.2 k hk⟩
theorem mfi.tx {T : Nat → Nat} {L z : Nat} {m m' : mS} (h : mfi z m m') (hm : mTx T L m) : mTx T L m' := ⟨(h.2.2.1 3 (by decide) (by decide) (by decide)).trans hm.1, fun k hk => by rw [h.2.2.2]; exact hm.2 k hk⟩
/-- ints of those numbers alone -/
theorem cfi_u {a : cS} (W : Wf a) {k : Nat} (hk : k = 3 ∨ k = 4 ∨ k = 7 ∨ False) (v : Int32) : cfi a (uI a k v) := ⟨W, fun _ _ => rfl, fun j a b c d e => if_neg (by rintro rfl; rcases hk with h | h | h | h <;> first | exact a h | exact b h | exact c h | exact h), rfl, fun z => ⟨(if_neg (by rintro rfl; rcases hk with h | h | h | h <;> first | exact absurd h (by decide) | exact h) : sI (uI a k v) 9 = sI a 9).symm.trans z, if_neg (by rintro rfl; rcases hk with h | h | h | h <;> first | exact absurd h (by decide) | exact h)⟩⟩
theorem mfi_u {z : Nat} {m : mS} (V : Vm m) {k : Nat} (hk : k = 5 ∨ k = 7 ∨ k = 8) (v : Int32) : mfi z m (vI m k v) := ⟨V, fun _ _ => rfl, fun j a b c => if_neg (by rintro rfl; rcases hk with h | h | h <;> first | exact a h | exact b h | exact c h), rfl⟩
theorem cfi_fail {a : cS} (W : Wf a) (p kd pl : Nat) (hk : nI kd ≠ 0 := by decide) : cfi a (cFail a p kd pl) := ⟨W, fun _ _ => rfl, fun j a b c d e => (if_neg e).trans ((if_neg d).trans (if_neg a)), rfl, fun z => absurd (z : nI kd = 0) hk⟩
theorem mfi_fail {z : Nat} {m : mS} (V : Vm m) (p kd pl : Nat) : mfi z m (mFail m p kd pl) := (mfi_u V (Or.inl rfl) (nI p)).trans ((mfi_u (m := vI m 5 (nI p)) V (Or.inr (Or.inl rfl)) (nI kd)).trans (mfi_u (m := vI (vI m 5 (nI p)) 7 (nI kd)) V (Or.inr (Or.inr rfl)) (nI pl)))
theorem z51 : nI 51 - 51 = (0 : Int32) := by decide
def rg (X : BS) (k e : Nat) : BS := fun j => X j || decide (k ≤ j ∧ j ≤ e)
theorem rg_wf {X : BS} (h : wfB X) {k e : Nat} (he : e < 102) : wfB (rg X k e) := fun j hj => by
  unfold rg
  rw [h j hj, decide_eq_false (by omega)]
  rfl
theorem rg_end (X : BS) {k e : Nat} (h : e < k) : rg X k e = X := funext fun j => by
  unfold rg
  rw [decide_eq_false (by omega), Bool.or_false]
theorem rg_step (X : BS) {k e : Nat} (h : k ≤ e) : rg (va_up X k true) (k + 1) e = rg X k e := funext fun j => by
  unfold rg
  by_cases c : j = k
  · subst c
    rw [show va_up X j true j = true from if_pos rfl, decide_eq_true (show j ≤ j ∧ j ≤ e by omega), Bool.or_true]
    rfl
  · rw [show va_up X k true j = X j from if_neg c, show decide (k + 1 ≤ j ∧ j ≤ e) = decide (k ≤ j ∧ j ≤ e) from decide_eq_decide.mpr (by omega)]
theorem rg_one (X : BS) (k : Nat) : rg X k k = va_up X k true := by
  rw [← rg_step X (Nat.le_refl k)]
  exact rg_end _ (Nat.lt_succ_self k)
theorem k_sub : ∀ k, k < 103 → 0 < k → nI k - 51 + 1 = nI (k + 1) - 51 ∧ nI k - 51 + 51 = nI k := by decide +kernel
theorem p_rng_L {e : Nat} (he : e < 102) (k0 : cS → Option cS) : ∀ (d fuel k : Nat) (a : cS), k + d = 102 → 0 < k → d < fuel → Wf a → ∃ a', fX3_readSecondNumber_L28 (nI e - 51) k0 fuel (nI k - 51) a = k0 a' ∧ cfi a a' ∧ cB a' 33 = rg (cB a 33) k e ∧ sI a' = sI a := by
  intro d
  induction d with
  | zero =>
    intro fuel k a h h0 hf W
    obtain ⟨f, rfl⟩ : ∃ f, fuel = f + 1 := ⟨fuel - 1, by omega⟩
    have : k = 102 := by omega
    subst this
    rw [fX3_readSecondNumber_L28, if_pos ((km_lt (by omega) (by omega)).mpr (by omega))]
    exact ⟨a, rfl, cfi.refl W, (rg_end _ (by omega)).symm, rfl⟩
  | succ d ih =>
    intro fuel k a h h0 hf W
    obtain ⟨f, rfl⟩ : ∃ f, fuel = f + 1 := ⟨fuel - 1, by omega⟩
    have ks := k_sub k (by omega) h0
    rw [fX3_readSecondNumber_L28]
    by_cases c : e < k
    · rw [if_pos ((km_lt (by omega) (by omega)).mpr c)]
      exact ⟨a, rfl, cfi.refl W, (rg_end _ c).symm, rfl⟩
    · rw [if_neg (fun z => c ((km_lt (by omega) (by omega)).mp z)), if_neg (show ¬ (50 : Int32) < nI k - 51 from fun z => by rw [top_50, km_lt (by omega) (by omega)] at z; omega), ks.1, ks.2]
      obtain ⟨a1, e1, e2, e3⟩ := p_put 33 a (show k < 102 by omega)
      rw [e1]
      simp only [Option.bind_some]
      have x33 : cB a1 33 = va_up (cB a 33) k true := by rw [e2]; exact zu_at _ _ _
      have W1 : Wf a1 := Wf_up W (wf_set (W 33) (by omega) true) e2
      have f1 : cfi a a1 := ⟨W1, fun n hn => by rw [e2]; exact zu_ne _ hn _, fun k _ _ _ _ _ => sI_eq e3 k, sT_eq e3, fun z => ⟨(sI_eq e3 9).symm.trans z, sI_eq e3 10⟩⟩
      obtain ⟨a', r1, r2, r3, r4⟩ := ih f (k + 1) a1 (by omega) (by omega) (by omega) W1
      refine ⟨a', r1, f1.trans r2, ?_, r4.trans (funext fun j => sI_eq e3 j)⟩
      rw [r3, x33]
      exact rg_step _ (by omega)
theorem m_rng_L {z e : Nat} (he : e < 102) : ∀ (d fuel k : Nat) (m : mS), k + d = e + 1 → 0 < k → d < fuel → Vm m → mI m 7 = 0 → ∃ m', fX8_item_L125 z (nI e - 51) fuel (nI k - 51) m = some m' ∧ mfi z m m' ∧ mB m' z = rg (mB m z) k e ∧ m'.2 = m.2 := by
  intro d
  induction d with
  | zero =>
    intro fuel k m h h0 hf V h7
    obtain ⟨f, rfl⟩ : ∃ f, fuel = f + 1 := ⟨fuel - 1, by omega⟩
    rw [fX8_item_L125, if_pos h7, if_pos ((km_lt (by omega) (by omega)).mpr (by omega))]
    exact ⟨m, rfl, mfi.refl V, (rg_end _ (by omega)).symm, rfl⟩
  | succ d ih =>
    intro fuel k m h h0 hf V h7
    obtain ⟨f, rfl⟩ : ∃ f, fuel = f + 1 := ⟨fuel - 1, by omega⟩
    have ks := k_sub k (by omega) h0
    have hk : k < 102 := by omega
    rw [fX8_item_L125, if_pos h7, if_neg (fun z => by have := (km_lt (by omega) (by omega)).mp z; omega), place_num hk h0, if_pos (vin102 hk), cl102 hk, ks.1, nb_1]
    have x1 : mB (vR m z k (bi true)) z = va_up (mB m z) k true := by rw [mB_set m hk]; exact zu_at _ _ _
    have f1 : mfi z m (vR m z k (bi true)) := ⟨Vm_vR V _ _ _, fun r hr => by rw [mB_set m hk]; exact zu_ne _ hr _, fun _ _ _ _ => rfl, rfl⟩
    obtain ⟨m', r1, r2, r3, r4⟩ := ih f (k + 1) (vR m z k (bi true)) (by omega) (by omega) (by omega) (Vm_vR V _ _ _) h7
    refine ⟨m', r1, f1.trans r2, ?_, r4⟩
    rw [r3, x1]
    exact rg_step _ (by omega)
theorem m_rng_err (z : Nat) (x y : Int32) (f : Nat) {m : mS} (h : mI m 7 ≠ 0) : fX8_item_L125 z x (f + 1) y m = some m := by
  rw [fX8_item_L125, if_neg h]
/-! an item -/
theorem ch_ne {c d : Nat} (hc : c < 256) (hd : d < 256) (h : c ≠ d) : ¬ nI c = nI d := fun z => h ((ceq hc hd).mp z)
theorem m_bad_number {T : Nat → Nat} {L q : Nat} (h : TX T L) {m : mS} (hm : mTx T L m) (hq : q ≤ L) (h5 : mI m 5 = nI q) (h7 : mI m 7 = 0) (h45 : ch T L q ≠ 45) (hd : dgt (ch T L q) = false) : fX8_number m = some (0, mFail m q 1 q) := by
  have hL := h.1
  have hc := ch_lt h q
  unfold fX8_number
  rw [m_sign h hm (by omega) h5]
  simp only [Option.bind_some, h5, Int32.add_zero]
  rw [if_neg (show ¬ nI (ch T L q) = 45 from ch_ne (d := 45) hc (by decide) h45), vI_self h5, m_sign h hm (by omega) h5]
  simp only [Option.bind_some, m_dgt hc, hd, if_bi, h5, Bool.false_eq_true, if_false]
  rw [m_fails 1 _ h7]
  unfold mFail
  rw [vI_self h5]
  rfl
theorem c_refuse (a : cS) : fX3_refuseByte a = some (uI (uI a 9 1) 10 (sI a 3)) := rfl
/-- behind the first number of an item, or behind a whole item -/
def Aft (T : Nat → Nat) (L : Nat) (a0 a : cS) (m0 m : mS) (z pc0 : Nat) : Prop := ∃ n a' p' pc', Go n a0 a' ∧ cfi a0 a' ∧ sI a' 9 = 0 ∧ (sI a' 4 = 8 ∨ sI a' 4 = 6 ∧ ch T L (sk T L p') ≠ 46) ∧ sI a' 3 = nI pc' ∧ pc' ≤ L ∧ mI m 5 = nI p' ∧ p' ≤ L ∧ sk T L pc' = sk T L p' ∧ n + pc0 ≤ pc' ∧ cB a' 33 = mB m z ∧ mI m 7 = 0 ∧ mI m 8 = mI m0 8
theorem kd_ne {kd : Nat} (h : kd = 1 ∨ kd = 2) : nI kd ≠ 0 := by rcases h with rfl | rfl <;> decide
/-- the numbers of an item, from the first sign on -/
theorem item_num {T : Nat → Nat} {L q z : Nat} (h : TX T L) {a : cS} {m : mS} (W : Wf a) (V : Vm m) (ha : cTx T L a) (hm : mTx T L m) (hq : q < L) (h3 : sI a 3 = nI q) (h9 : sI a 9 = 0) (h5 : mI m 5 = nI q) (h7 : mI m 7 = 0) (hX : cB a 33 = mB m z) (hsg : T q = 45 ∨ dgt (T q) = true) : ∃ a1 r s1, (fX3_readNumber (nI (T q)) (-50) a).bind (fun (r1, s1) => (fX2_put 33 ((sI (uI s1 7 r1) 7) + 51) (uI s1 7 r1)).bind (fun (r2, s2) => some (uI s2 4 6))) = some a1 ∧ fX8_number m = some (r, s1) ∧ cfi a a1 ∧ ((∃ p' kd pl, p' ≤ L ∧ (kd = 1 ∨ kd = 2) ∧ pl ≤ L ∧ sI a1 9 = nI kd ∧ sI a1 10 = nI pl ∧ s1 = mFail m p' kd pl) ∨ (∃ p' k, q < p' ∧ p' ≤ L ∧ 0 < k ∧ k < 102 ∧ r = nI k - 51 ∧ s1 = vI m 5 (nI p') ∧ sI a1 9 = 0 ∧ sI a1 4 = 6 ∧ sI a1 3 = nI p' ∧ sI a1 7 = nI k - 51 ∧ cB a1 33 = rg (cB a 33) k k)) := by
  have hL := h.1
  have put : ∀ (s : cS) (k : Nat), Wf s → 0 < k → k < 102 → ∃ s', (fX2_put 33 ((sI (uI s 7 (nI k - 51)) 7) + 51) (uI s 7 (nI k - 51))).bind (fun (r2, s2) => some (uI s2 4 6)) = some s' ∧ cfi s s' ∧ sI s' 9 = sI s 9 ∧ sI s' 10 = sI s 10 ∧ sI s' 4 = 6 ∧ sI s' 3 = sI s 3 ∧ sI s' 7 = nI k - 51 ∧ cB s' 33 = rg (cB s 33) k k := by
    intro s k Ws k0 k1
    obtain ⟨s2, e1, e2, e3⟩ := p_put 33 (uI s 7 (nI k - 51)) k1
    have i2 : ∀ j, sI s2 j = sI (uI s 7 (nI k - 51)) j := fun j => sI_eq e3 j
    have W2 : Wf s2 := Wf_up (a := uI s 7 (nI k - 51)) Ws (wf_set (Ws 33) k1 true) e2
    have x33 : cB s2 33 = va_up (cB s 33) k true := by rw [e2]; exact zu_at _ _ _
    refine ⟨uI s2 4 6, ?_, ?_, ?_, ?_, rfl, ?_, ?_, ?_⟩
    · rw [show sI (uI s 7 (nI k - 51)) 7 = nI k - 51 from rfl, (k_sub k (by omega) k0).2, e1]
      rfl
    · exact (cfi_u Ws (Or.inr (Or.inr (Or.inl rfl))) _).trans (cfi.trans ⟨W2, fun n hn => by rw [e2]; exact zu_ne _ hn _, fun j _ _ _ _ _ => i2 j, sT_eq e3, fun z => ⟨(i2 9).symm.trans z, i2 10⟩⟩ (cfi_u W2 (Or.inr (Or.inl rfl)) _))
    · rw [sI_ne _ (by decide), i2, sI_ne _ (by decide)]
    · rw [sI_ne _ (by decide), i2, sI_ne _ (by decide)]
    · rw [sI_ne _ (by decide), i2, sI_ne _ (by decide)]
    · rw [sI_ne _ (by decide), i2, sI_at]
    · show cB s2 33 = _
      rw [x33, rg_one]
  rw [lst_1]
  rcases num_both h ha hm hq h3 h5 h7 (l := 1) (by decide) (by decide) with ⟨p', e0, e1, e2, e3⟩ | ⟨p', r, e0, e1, e2, e3⟩ | ⟨p', k, e0, e1, k0, k1, e2, e3⟩
  · have W1 := (cfi_fail W p' 1 p').1
    obtain ⟨s', g1, g2, g3, g4, g5, g6, g7, g8⟩ := put (cFail a p' 1 p') 51 W1 (by decide) (by decide)
    have pl : p' ≤ L := by rw [e0]; split <;> omega
    refine ⟨s', 0, mFail m p' 1 p', ?_, e3, (cfi_fail W p' 1 p').trans g2, Or.inl ⟨p', 1, p', pl, Or.inl rfl, pl, ?_, ?_, rfl⟩⟩
    · rw [e2.trans (show some ((0 : Int32), cFail a p' 1 p') = some (nI 51 - 51, cFail a p' 1 p') from by rw [z51])]
      simp only [Option.bind_some]
      exact g1
    · rw [g3]
      rfl
    · rw [g4]
      rfl
  · have W1 := (cfi_fail W p' 2 q).1
    obtain ⟨s', g1, g2, g3, g4, g5, g6, g7, g8⟩ := put (cFail a p' 2 q) 51 W1 (by decide) (by decide)
    refine ⟨s', r, mFail m p' 2 q, ?_, e3, (cfi_fail W p' 2 q).trans g2, Or.inl ⟨p', 2, q, e1, Or.inr rfl, by omega, ?_, ?_, rfl⟩⟩
    · rw [e2.trans (show some ((0 : Int32), cFail a p' 2 q) = some (nI 51 - 51, cFail a p' 2 q) from by rw [z51])]
      simp only [Option.bind_some]
      exact g1
    · rw [g3]
      rfl
    · rw [g4]
      rfl
  · have f0 := cfi_u W (k := 3) (Or.inl rfl) (nI p')
    obtain ⟨s', g1, g2, g3, g4, g5, g6, g7, g8⟩ := put (uI a 3 (nI p')) k f0.1 k0 k1
    refine ⟨s', nI k - 51, vI m 5 (nI p'), ?_, e3, f0.trans g2, Or.inr ⟨p', k, e0, e1, k0, k1, rfl, rfl, ?_, g5, ?_, g7, g8⟩⟩
    · rw [e2, if_neg (by omega)]
      exact g1
    · rw [g3]
      exact h9
    · rw [g6]
      rfl
