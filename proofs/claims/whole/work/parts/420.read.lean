/-! ===== reading: the text on both sides ===== -/
def ch (T : Nat → Nat) (L p : Nat) : Nat := if p < L then T p else 0
def skF (T : Nat → Nat) : Nat → Nat → Nat
  | 0, p => p
  | d + 1, p => if T p = 32 ∨ T p = 10 then skF T d (p + 1) else p
def sk (T : Nat → Nat) (L p : Nat) : Nat := skF T (L - p) p
theorem sk_lt (T : Nat → Nat) {L p : Nat} (h : p < L) : sk T L p = if T p = 32 ∨ T p = 10 then sk T L (p + 1) else p := by
  unfold sk
  rw [show L - p = (L - (p + 1)) + 1 from by omega, skF]
theorem sk_ge (T : Nat → Nat) {L p : Nat} (h : L ≤ p) : sk T L p = p := by
  unfold sk
  rw [show L - p = 0 from by omega, skF]
theorem sk_ok (T : Nat → Nat) {L : Nat} : ∀ (d p : Nat), p + d = L → p ≤ sk T L p ∧ sk T L p ≤ L ∧ (sk T L p < L → T (sk T L p) ≠ 32 ∧ T (sk T L p) ≠ 10) := by
  intro d
  induction d with
  | zero =>
    intro p h
    rw [sk_ge T (by omega)]
    exact ⟨Nat.le_refl _, by omega, fun z => by omega⟩
  | succ d ih =>
    intro p h
    rw [sk_lt T (by omega)]
    by_cases c : T p = 32 ∨ T p = 10
    · rw [if_pos c]
      have := ih (p + 1) (by omega)
      exact ⟨by omega, this.2.1, this.2.2⟩
    · rw [if_neg c]
      exact ⟨Nat.le_refl _, by omega, fun _ => ⟨fun z => c (Or.inl z), fun z => c (Or.inr z)⟩⟩
theorem sk_le (T : Nat → Nat) {L p : Nat} (h : p ≤ L) : p ≤ sk T L p ∧ sk T L p ≤ L := ⟨(sk_ok T (L - p) p (by omega)).1, (sk_ok T (L - p) p (by omega)).2.1⟩
theorem sk_sk (T : Nat → Nat) {L p : Nat} (h : p ≤ L) : sk T L (sk T L p) = sk T L p := by
  have k := sk_ok T (L := L) (L - p) p (by omega)
  by_cases c : sk T L p < L
  · have := k.2.2 c
    rw [sk_lt T c, if_neg (fun z => z.elim this.1 this.2)]
  · rw [sk_ge T (by omega)]
def TX (T : Nat → Nat) (L : Nat) : Prop := L ≤ 200 ∧ ∀ k, k < L → 0 < T k ∧ T k < 256
def cTx (T : Nat → Nat) (L : Nat) (a : cS) : Prop := sI a 2 = nI L ∧ ∀ k, k < L → sT a k = nI (T k)
def mTx (T : Nat → Nat) (L : Nat) (m : mS) : Prop := mI m 3 = nI L ∧ ∀ k, k < L → mT m k = nI (T k)
theorem ch_lt {T : Nat → Nat} {L : Nat} (h : TX T L) (p : Nat) : ch T L p < 256 := by
  unfold ch
  split
  · exact (h.2 p ‹_›).2
  · decide
theorem ch_0 {T : Nat → Nat} {L : Nat} (h : TX T L) (p : Nat) : ch T L p = 0 ↔ L ≤ p := by
  unfold ch
  by_cases c : p < L
  · rw [if_pos c]
    have := (h.2 p c).1
    omega
  · rw [if_neg c]
    omega
theorem ch_sk {T : Nat → Nat} {L p : Nat} (hp : p ≤ L) : ch T L (sk T L p) ≠ 32 ∧ ch T L (sk T L p) ≠ 10 := by
  unfold ch
  by_cases c : sk T L p < L
  · rw [if_pos c]
    exact (sk_ok T (L - p) p (by omega)).2.2 c
  · rw [if_neg c]
    decide
theorem ceq {c d : Nat} (hc : c < 256) (hd : d < 256) : nI c = nI d ↔ c = d := nI_eq (by omega) (by omega)
theorem p_byteAt {T : Nat → Nat} {L : Nat} (h : TX T L) {a : cS} (ha : cTx T L a) {p : Nat} (hp : p < 1000) : fX4_byteAt (nI p) a = some (nI (ch T L p), a) := by
  unfold fX4_byteAt ch
  have := h.1
  rw [if_neg (nI_pos (by omega)), ha.1]
  by_cases c : p < L
  · rw [if_neg (nI_ge c (by omega)), if_pos (vin200 (by omega)), cl200 (by omega), ha.2 p c, if_pos c]
  · rw [if_pos (nI_le (by omega) (by omega)), if_neg c]
    rfl
theorem uI_self {s : cS} {k : Nat} {v : Int32} (h : sI s k = v) : uI s k v = s := by
  subst h
  unfold uI sI
  rw [zu_self]
theorem uI_twice (s : cS) (k : Nat) (v w : Int32) : uI (uI s k v) k w = uI s k w := by
  unfold uI
  rw [zu_twice]
theorem vI_self {s : mS} {k : Nat} {v : Int32} (h : mI s k = v) : vI s k v = s := by
  subst h
  unfold vI mI
  rw [zu_self]
theorem vI_twice (s : mS) (k : Nat) (v w : Int32) : vI (vI s k v) k w = vI s k w := by
  unfold vI
  rw [zu_twice]
theorem p_blanks_L {T : Nat → Nat} {L : Nat} (h : TX T L) : ∀ (d fuel p : Nat) (a : cS), p + d = L → d < fuel → cTx T L a → sI a 3 = nI p → fX3_passBlanks_L0 fuel a = some (uI a 3 (nI (sk T L p))) := by
  have hL := h.1
  intro d
  induction d with
  | zero =>
    intro fuel p a hp hf ha h3
    obtain ⟨f, rfl⟩ : ∃ f, fuel = f + 1 := ⟨fuel - 1, by omega⟩
    rw [fX3_passBlanks_L0, fX4_length, ha.1, h3, if_pos (nI_le (by omega) (by omega)), sk_ge T (by omega), uI_self h3]
  | succ d ih =>
    intro fuel p a hp hf ha h3
    obtain ⟨f, rfl⟩ : ∃ f, fuel = f + 1 := ⟨fuel - 1, by omega⟩
    have hc := ch_lt h p
    have ec : ch T L p = T p := if_pos (by omega)
    rw [fX3_passBlanks_L0, fX4_length, ha.1, h3, if_neg (nI_ge (by omega) (by omega)), p_byteAt h ha (by omega), sk_lt T (by omega)]
    simp only [Option.bind_some, h3]
    rw [ec] at hc ⊢
    by_cases c : T p = 32
    · rw [if_pos (by rw [c]; rfl), if_pos (Or.inl c), nI_1, ih f (p + 1) (uI a 3 (nI (p + 1))) (by omega) (by omega) ⟨ha.1, ha.2⟩ rfl, uI_twice]
    · rw [if_neg (show ¬ nI (T p) = 32 from fun z => c ((ceq (d := 32) hc (by decide)).mp z))]
      rw [p_byteAt h ha (by omega)]
      simp only [Option.bind_some]
      rw [ec]
      by_cases c2 : T p = 10
      · rw [if_pos (by rw [c2]; rfl), if_pos (Or.inr c2), h3, nI_1, ih f (p + 1) (uI a 3 (nI (p + 1))) (by omega) (by omega) ⟨ha.1, ha.2⟩ rfl, uI_twice]
      · rw [if_neg (show ¬ nI (T p) = 10 from fun z => c2 ((ceq (d := 10) hc (by decide)).mp z)), if_neg (fun z => z.elim c c2), uI_self h3]
theorem p_blanks {T : Nat → Nat} {L p : Nat} (h : TX T L) {a : cS} (ha : cTx T L a) (hp : p ≤ L) (h3 : sI a 3 = nI p) : fX3_passBlanks a = some (uI a 3 (nI (sk T L p))) := p_blanks_L h (L - p) 1100 p a (by omega) (by have := h.1; omega) ha h3
theorem m_sign {T : Nat → Nat} {L p : Nat} (h : TX T L) {m : mS} (hm : mTx T L m) (hp : p < 1000) (h5 : mI m 5 = nI p) : fX8_sign m = some (nI (ch T L p), m) := by
  unfold fX8_sign ch
  have := h.1
  rw [hm.1, h5]
  by_cases c : p < L
  · rw [if_neg (nI_ge c (by omega)), if_pos (vin200 (by omega)), cl200 (by omega), hm.2 p c, if_pos c]
  · rw [if_pos (nI_le (by omega) (by omega)), if_neg c]
    rfl
theorem m_blanks_L {T : Nat → Nat} {L : Nat} (h : TX T L) (k0 : mS → Option (Int32 × mS)) : ∀ (d fuel p : Nat) (m : mS), p + d = L → d < fuel → mTx T L m → mI m 5 = nI p → fX8_signBehindBlanks_L0 k0 fuel m = k0 (vI m 5 (nI (sk T L p))) := by
  have hL := h.1
  intro d
  induction d with
  | zero =>
    intro fuel p m hp hf hm h5
    obtain ⟨f, rfl⟩ : ∃ f, fuel = f + 1 := ⟨fuel - 1, by omega⟩
    have ec : ch T L p = 0 := if_neg (by omega)
    rw [fX8_signBehindBlanks_L0, m_sign h hm (by omega) h5, ec, sk_ge T (by omega), vI_self h5]
    simp only [Option.bind_some]
    rw [if_neg (by decide), m_sign h hm (by omega) h5, ec]
    simp only [Option.bind_some]
    rw [if_neg (by decide)]
  | succ d ih =>
    intro fuel p m hp hf hm h5
    obtain ⟨f, rfl⟩ : ∃ f, fuel = f + 1 := ⟨fuel - 1, by omega⟩
    have hc := ch_lt h p
    have ec : ch T L p = T p := if_pos (by omega)
    rw [fX8_signBehindBlanks_L0, m_sign h hm (by omega) h5, sk_lt T (by omega)]
    simp only [Option.bind_some, h5]
    rw [ec] at hc ⊢
    by_cases c : T p = 32
    · rw [if_pos (by rw [c]; rfl), if_pos (Or.inl c), nI_1, ih f (p + 1) (vI m 5 (nI (p + 1))) (by omega) (by omega) ⟨hm.1, hm.2⟩ rfl, vI_twice]
    · rw [if_neg (show ¬ nI (T p) = 32 from fun z => c ((ceq (d := 32) hc (by decide)).mp z)), m_sign h hm (by omega) h5]
      simp only [Option.bind_some]
      rw [ec]
      by_cases c2 : T p = 10
      · rw [if_pos (by rw [c2]; rfl), if_pos (Or.inr c2), h5, nI_1, ih f (p + 1) (vI m 5 (nI (p + 1))) (by omega) (by omega) ⟨hm.1, hm.2⟩ rfl, vI_twice]
      · rw [if_neg (show ¬ nI (T p) = 10 from fun z => c2 ((ceq (d := 10) hc (by decide)).mp z)), if_neg (fun z => z.elim c c2), vI_self h5]
theorem m_blanks {T : Nat → Nat} {L p : Nat} (h : TX T L) {m : mS} (hm : mTx T L m) (hp : p ≤ L) (h5 : mI m 5 = nI p) : fX8_signBehindBlanks m = some (nI (ch T L (sk T L p)), vI m 5 (nI (sk T L p))) := by
  have hL := h.1
  have := (sk_le T hp).2
  unfold fX8_signBehindBlanks
  rw [m_blanks_L h _ (L - p) 1100 p m (by omega) (by omega) hm h5]
  simp only []
  rw [m_sign h (m := vI m 5 (nI (sk T L p))) ⟨hm.1, hm.2⟩ (by omega) rfl]
  rfl
theorem m_fails (k : Int32) (pl : Int32) {m : mS} (h : mI m 7 = 0) : fX8_fails k pl m = some (vI (vI m 7 k) 8 pl) := by
  unfold fX8_fails
  rw [if_pos h]
theorem m_expects {T : Nat → Nat} {L p e : Nat} (h : TX T L) {m : mS} (hm : mTx T L m) (hp : p ≤ L) (h5 : mI m 5 = nI p) (h7 : mI m 7 = 0) (he : e < 256) : fX8_expects (nI e) m = if ch T L (sk T L p) = e then some (vI m 5 (nI (sk T L p + 1))) else some (vI (vI (vI m 5 (nI (sk T L p))) 7 1) 8 (nI (sk T L p))) := by
  unfold fX8_expects
  rw [m_blanks h hm hp h5]
  simp only [Option.bind_some]
  have e5 : mI (vI m 5 (nI (sk T L p))) 5 = nI (sk T L p) := rfl
  by_cases c : ch T L (sk T L p) = e
  · rw [if_pos c, if_pos (by rw [c]), e5, nI_1, vI_twice]
  · rw [if_neg c, if_neg (fun z => c ((ceq (ch_lt h _) he).mp z)), m_fails 1 _ (show mI (vI m 5 (nI (sk T L p))) 7 = 0 from h7), e5]
    rfl
/-! the class's turns -/
def Go (n : Nat) (a a' : cS) : Prop := ∀ (k0 k1 : cS → Option cS) (fuel t : Nat), t + n ≤ 201 → fX3_read_L7 k0 k1 (fuel + n) (nI t) a = fX3_read_L7 k0 k1 fuel (nI (t + n)) a'
theorem Go.refl (a : cS) : Go 0 a a := fun _ _ _ _ _ => rfl
theorem Go.trans {n k : Nat} {a b c : cS} (h : Go n a b) (g : Go k b c) : Go (n + k) a c := fun k0 k1 fuel t ht => by
  rw [show fuel + (n + k) = (fuel + k) + n from by omega, h k0 k1 (fuel + k) t (by omega), g k0 k1 fuel (t + n) (by omega), Nat.add_assoc]
theorem Go.one {T : Nat → Nat} {L p : Nat} (h : TX T L) {a a' : cS} (ha : cTx T L a) (hp : p ≤ L) (h3 : sI a 3 = nI p) (h9 : sI a 9 = 0) (hq : sk T L p < L) (hs : fX3_readSign (nI (T (sk T L p))) (uI a 3 (nI (sk T L p))) = some a') : Go 1 a a' := by
  intro k0 k1 fuel t ht
  have hL := h.1
  have ec : ch T L (sk T L p) = T (sk T L p) := if_pos hq
  rw [fX3_read_L7, if_neg (show ¬ (200 : Int32) < nI t from nI_nlt (a := 200) (by omega) (by decide)), if_pos h9, p_blanks h ha hp h3]
  simp only [Option.bind_some]
  have e3 : sI (uI a 3 (nI (sk T L p))) 3 = nI (sk T L p) := rfl
  have e2 : fX4_length (uI a 3 (nI (sk T L p))) = nI L := ha.1
  rw [e3, e2, if_pos (nI_lt hq (by omega)), p_byteAt h (a := uI a 3 (nI (sk T L p))) ⟨ha.1, ha.2⟩ (by omega), ec]
  simp only [Option.bind_some, hs, nI_1]
