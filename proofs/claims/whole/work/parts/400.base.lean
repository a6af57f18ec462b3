/-! ===== begun as rows of the kit's laws (bits, counts) ===== -/
theorem ts_bit {w : Int64} {s : UInt64} {j : Nat} (hj : j < 64) (hs : s.toNat = j) : ((w.toUInt64 >>> s).toInt64 &&& 1) = 0 ↔ w.toBitVec.getLsbD j = false := by
  have e : (w.toUInt64 >>> s).toInt64.toBitVec = w.toBitVec >>> j := by
    apply BitVec.eq_of_toNat_eq
    show (w.toUInt64 >>> s).toNat = _
    rw [UInt64.toNat_shiftRight, hs, Nat.mod_eq_of_lt hj, BitVec.toNat_ushiftRight]
    rfl
  rw [← Int64.toBitVec_inj, Int64.toBitVec_and, e]
  show w.toBitVec >>> j &&& 1#64 = 0#64 ↔ _
  constructor
  · intro h
    have t := congrArg (fun x => x.getLsbD 0) h
    simpa using t
  · intro h
    apply BitVec.eq_of_getLsbD_eq
    intro i hi
    cases i with
    | zero => simp [h]
    | succ i => simp
theorem wb_tb (n : Nat) : (lN n).toBitVec = BitVec.ofNat 64 n := rfl
theorem wb_inj {a b : Int64} (h : a.toBitVec = b.toBitVec) : a = b := Int64.toBitVec_inj.mp h
theorem wb_tn {n : Nat} (h : n < 2 ^ 64) : (lN n).toBitVec.toNat = n := by rw [wb_tb, BitVec.toNat_ofNat, Nat.mod_eq_of_lt h]
theorem wb_of (x : Int64) : ∃ n, n < 2 ^ 64 ∧ x = lN n := ⟨x.toBitVec.toNat, x.toBitVec.isLt, wb_inj (by rw [wb_tb]; simp)⟩
theorem wb_of32 (x : Int32) : ∃ n, n < 2 ^ 32 ∧ x = nI n := ⟨x.toBitVec.toNat, x.toBitVec.isLt, Int32.toBitVec_inj.mp (by show _ = BitVec.ofNat 32 _; simp)⟩
theorem wb_c : ∀ k, k < 64 → ((nI k).toInt64 &&& 63) = lN k := by decide +kernel
theorem wb_cu : ∀ k, k < 64 → ((nI k).toInt64.toUInt64 &&& Int64.toUInt64 63) = UInt64.ofNat k := by decide +kernel
theorem wb_sm : ∀ k, k < 64 → (BitVec.ofNat 64 k).smod 64 = BitVec.ofNat 64 k := by decide +kernel
theorem wb_lt2 {a b : Nat} (h : a < b) : 2 ^ a < 2 ^ b := Nat.pow_lt_pow_right (by decide) h
theorem wb_shr {n k : Nat} (hn : n < 2 ^ 64) (hk : k < 64) : ((lN n).toUInt64 >>> ((nI k).toInt64.toUInt64 &&& Int64.toUInt64 63)).toInt64 = lN (n / 2 ^ k) := by
  rw [wb_cu k hk]
  apply wb_inj
  apply BitVec.eq_of_toNat_eq
  show ((lN n).toUInt64 >>> UInt64.ofNat k).toNat = (BitVec.ofNat 64 _).toNat
  have h1 : (UInt64.ofNat k).toNat = k := by
    show (BitVec.ofNat 64 k).toNat = k
    rw [BitVec.toNat_ofNat, Nat.mod_eq_of_lt (by omega)]
  have h2 : (lN n).toUInt64.toNat = n := wb_tn hn
  rw [UInt64.toNat_shiftRight, h1, h2, Nat.mod_eq_of_lt hk, Nat.shiftRight_eq_div_pow, BitVec.toNat_ofNat, Nat.mod_eq_of_lt (Nat.lt_of_le_of_lt (Nat.div_le_self _ _) hn)]
theorem wb_shl (n : Nat) {k : Nat} (hk : k < 64) : lN n <<< ((nI k).toInt64 &&& 63) = lN (n * 2 ^ k) := by
  rw [wb_c k hk]
  apply wb_inj
  rw [Int64.toBitVec_shiftLeft, wb_tb, wb_tb, wb_tb, wb_sm k hk]
  apply BitVec.eq_of_toNat_eq
  rw [BitVec.shiftLeft_eq', BitVec.toNat_shiftLeft, BitVec.toNat_ofNat, BitVec.toNat_ofNat, BitVec.toNat_ofNat, Nat.mod_eq_of_lt (show k < 2 ^ 64 by omega), Nat.shiftLeft_eq, Nat.mul_mod, Nat.mod_mod, ← Nat.mul_mod]
theorem wb_and {a b : Nat} (ha : a < 2 ^ 64) (hb : b < 2 ^ 64) : lN a &&& lN b = lN (a &&& b) := by
  apply wb_inj
  rw [Int64.toBitVec_and, wb_tb, wb_tb, wb_tb]
  apply BitVec.eq_of_toNat_eq
  rw [BitVec.toNat_and, BitVec.toNat_ofNat, BitVec.toNat_ofNat, BitVec.toNat_ofNat, Nat.mod_eq_of_lt ha, Nat.mod_eq_of_lt hb, Nat.mod_eq_of_lt (Nat.and_lt_two_pow _ hb)]
theorem wb_or {a b : Nat} (ha : a < 2 ^ 64) (hb : b < 2 ^ 64) : lN a ||| lN b = lN (a ||| b) := by
  apply wb_inj
  rw [Int64.toBitVec_or, wb_tb, wb_tb, wb_tb]
  apply BitVec.eq_of_toNat_eq
  rw [BitVec.toNat_or, BitVec.toNat_ofNat, BitVec.toNat_ofNat, BitVec.toNat_ofNat, Nat.mod_eq_of_lt ha, Nat.mod_eq_of_lt hb, Nat.mod_eq_of_lt (Nat.or_lt_two_pow ha hb)]
theorem wb_mask {n k : Nat} (hn : n < 2 ^ 64) (hk : k < 64) : lN n &&& lN (2 ^ k - 1) = lN (n % 2 ^ k) := by
  rw [wb_and hn (by have := wb_lt2 hk; omega), Nat.and_two_pow_sub_one_eq_mod]
def fb_ct (p : Nat → Bool) : Nat → Nat
  | 0 => 0
  | n + 1 => fb_ct p n + (if p n then 1 else 0)
theorem fb_ct_succ (p : Nat → Bool) (n : Nat) : fb_ct p (n + 1) = fb_ct p n + (if p n then 1 else 0) := rfl
theorem fb_ct_le (p : Nat → Bool) : ∀ n, fb_ct p n ≤ n
  | 0 => Nat.le_refl _
  | n + 1 => by
    have h := fb_ct_le p n
    rw [fb_ct_succ]
    split <;> omega
theorem fb_ct_step (p : Nat → Bool) (m : Nat) : ∀ n, fb_ct p m ≤ fb_ct p (m + n)
  | 0 => Nat.le_refl _
  | n + 1 => by
    have h := fb_ct_step p m n
    show fb_ct p m ≤ fb_ct p (m + n + 1)
    rw [fb_ct_succ]
    omega
theorem fb_ct_mono (p : Nat → Bool) {m n : Nat} (h : m ≤ n) : fb_ct p m ≤ fb_ct p n := by
  have := fb_ct_step p m (n - m)
  rwa [Nat.add_sub_cancel' h] at this
theorem fb_ct_cong {p q : Nat → Bool} : ∀ {n : Nat}, (∀ k, k < n → p k = q k) → fb_ct p n = fb_ct q n
  | 0, _ => rfl
  | n + 1, h => by
    rw [fb_ct_succ, fb_ct_succ, fb_ct_cong (fun k hk => h k (by omega)), h n (by omega)]
theorem fb_ct_out (p : Nat → Bool) (b : Bool) {i n : Nat} (h : n ≤ i) : fb_ct (fun k => if k = i then b else p k) n = fb_ct p n :=
  fb_ct_cong fun k hk => if_neg (by omega)
theorem fb_ct_upd (p : Nat → Bool) (b : Bool) {i : Nat} : ∀ {n : Nat}, i < n → fb_ct (fun k => if k = i then b else p k) n + (if p i then 1 else 0) = fb_ct p n + (if b then 1 else 0)
  | 0, h => absurd h (Nat.not_lt_zero i)
  | n + 1, h => by
    rw [fb_ct_succ, fb_ct_succ]
    rcases Nat.lt_or_ge i n with q | q
    · have := fb_ct_upd p b q
      have e : (if n = i then b else p n) = p n := if_neg (by omega)
      rw [e]
      omega
    · have e : i = n := by omega
      subst e
      rw [fb_ct_out p b (Nat.le_refl _)]
      simp only [if_true]
      omega
theorem fb_ct_sub {p q : Nat → Bool} : ∀ {n : Nat}, (∀ k, k < n → p k = true → q k = true) → fb_ct p n ≤ fb_ct q n
  | 0, _ => Nat.le_refl _
  | n + 1, h => by
    have h1 := fb_ct_sub (n := n) (p := p) (q := q) (fun k hk => h k (by omega))
    have h2 := h n (by omega)
    rw [fb_ct_succ, fb_ct_succ]
    cases hp : p n <;> cases hq : q n <;> simp_all <;> omega
theorem fb_ct_split (p : Nat → Bool) (m : Nat) : ∀ n, fb_ct p (m + n) = fb_ct p m + fb_ct (fun k => p (m + k)) n
  | 0 => rfl
  | n + 1 => by
    have h := fb_ct_split p m n
    show fb_ct p (m + n + 1) = _
    rw [fb_ct_succ, fb_ct_succ, h, Nat.add_assoc]
theorem fb_ct_zero {p : Nat → Bool} : ∀ {n : Nat}, fb_ct p n = 0 ↔ ∀ k, k < n → p k = false
  | 0 => ⟨fun _ k hk => absurd hk (Nat.not_lt_zero k), fun _ => rfl⟩
  | n + 1 => by
    have h := fb_ct_zero (p := p) (n := n)
    rw [fb_ct_succ]
    constructor
    · intro e k hk
      have e1 : fb_ct p n = 0 := by omega
      rcases Nat.lt_or_ge k n with q | q
      · exact h.mp e1 k q
      · have ek : k = n := by omega
        subst ek
        cases hp : p k
        · rfl
        · simp [hp] at e
    · intro a
      rw [h.mpr (fun k hk => a k (by omega)), a n (by omega)]
      rfl
theorem fb_ct_pos {p : Nat → Bool} {n : Nat} : 0 < fb_ct p n ↔ ∃ k, k < n ∧ p k = true := by
  constructor
  · intro h
    refine Classical.byContradiction fun hx => ?_
    have := fb_ct_zero.mpr (fun k hk => by
      cases hp : p k
      · rfl
      · exact absurd ⟨k, hk, hp⟩ hx : ∀ k, k < n → p k = false)
    omega
  · rintro ⟨k, hk, hp⟩
    rcases Nat.eq_zero_or_pos (fb_ct p n) with e | e
    · have := fb_ct_zero.mp e k hk
      rw [this] at hp
      cases hp
    · exact e
theorem fb_ct_kth {p : Nat → Bool} {k : Nat} : ∀ {n : Nat}, k < fb_ct p n → ∃ i, i < n ∧ p i = true ∧ fb_ct p i = k
  | 0, h => absurd h (Nat.not_lt_zero k)
  | n + 1, h => by
    rcases Nat.lt_or_ge k (fb_ct p n) with q | q
    · obtain ⟨i, h1, h2⟩ := fb_ct_kth q
      exact ⟨i, by omega, h2⟩
    · rw [fb_ct_succ] at h
      cases hp : p n
      · simp [hp] at h; omega
      · simp [hp] at h
        exact ⟨n, by omega, hp, by omega⟩
theorem fb_ct_kth_one {p : Nat → Bool} {i j : Nat} (hi : p i = true) (hj : p j = true) (e : fb_ct p i = fb_ct p j) : i = j := by
  have key : ∀ a b : Nat, a < b → p a = true → fb_ct p a < fb_ct p b := by
    intro a b hab ha
    have h := fb_ct_mono p (show a + 1 ≤ b from hab)
    rw [fb_ct_succ, ha] at h
    simp at h
    omega
  rcases Nat.lt_trichotomy i j with q | q | q
  · have := key i j q hi; omega
  · exact q
  · have := key j i q hj; omega
/-! ===== sets as properties of places; the class's and the reference's rows as such ===== -/
abbrev BS : Type := Nat → Bool
def bi (b : Bool) : Int32 := if b then 1 else 0
theorem bi_0 {b : Bool} : bi b = 0 ↔ b = false := by cases b <;> decide
theorem bi_1 {b : Bool} : bi b = 1 ↔ b = true := by cases b <;> decide
theorem bi_inj {a b : Bool} : bi a = bi b ↔ a = b := by cases a <;> cases b <;> decide
theorem if_bi {α : Type} (b : Bool) (X Y : α) : (if bi b = 0 then X else Y) = if b then Y else X := by cases b <;> rfl
theorem if_bool {α : Type} {p : Prop} [Decidable p] {b : Bool} (h : p ↔ b = true) (X Y : α) : (if p then X else Y) = if b then X else Y := by
  cases b
  · rw [if_neg (fun c => Bool.noConfusion (h.mp c)), if_neg (fun c => Bool.noConfusion c)]
  · rw [if_pos (h.mpr rfl), if_pos rfl]
theorem if_boolf {α : Type} {p : Prop} [Decidable p] {b : Bool} (h : p ↔ b = false) (X Y : α) : (if p then X else Y) = if b then Y else X := by
  cases b
  · rw [if_pos (h.mpr rfl), if_neg (fun c => Bool.noConfusion c)]
  · rw [if_neg (fun c => Bool.noConfusion (h.mp c)), if_pos rfl]
noncomputable def pd (p : Prop) : Bool := @decide p (Classical.propDecidable p)
theorem pd_iff {p : Prop} : pd p = true ↔ p := by
  unfold pd
  exact @decide_eq_true_iff p (Classical.propDecidable p)
theorem pd_not {p : Prop} : pd p = false ↔ ¬ p := by
  unfold pd
  exact @decide_eq_false_iff_not p (Classical.propDecidable p)
theorem pd_congr {p q : Prop} (h : p ↔ q) : pd p = pd q := by rw [propext h]
theorem bool_ext {a b : Bool} (h : a = true ↔ b = true) : a = b := by
  cases a <;> cases b <;> simp_all
theorem ts_nt' {x : Bool} (h : ¬ x = true) : x = false := by cases x <;> first | rfl | exact absurd rfl h
theorem zu_at {α : Type} (f : Nat → α) (k : Nat) (v : α) : va_up f k v k = v := if_pos rfl
theorem zu_ne {α : Type} (f : Nat → α) {k j : Nat} (h : j ≠ k) (v : α) : va_up f k v j = f j := if_neg h
theorem zu_self {α : Type} (f : Nat → α) (k : Nat) : va_up f k (f k) = f := by
  funext j
  unfold va_up
  by_cases h : j = k
  · rw [if_pos h, h]
  · rw [if_neg h]
theorem zu_twice {α : Type} (f : Nat → α) (k : Nat) (v w : α) : va_up (va_up f k v) k w = va_up f k w := by
  funext j
  unfold va_up
  by_cases h : j = k
  · rw [if_pos h, if_pos h]
  · rw [if_neg h, if_neg h, if_neg h]
/-! two words as a set -/
def pB (l h : Int64) : BS := fun k => if k < 64 then l.toBitVec.getLsbD k else h.toBitVec.getLsbD (k - 64)
theorem pB_inj {l h l' h' : Int64} : pB l h = pB l' h' ↔ l = l' ∧ h = h' := by
  constructor
  · intro e
    constructor
    · apply Int64.toBitVec_inj.mp
      apply BitVec.eq_of_getLsbD_eq
      intro i hi
      have := congrFun e i
      unfold pB at this
      rwa [if_pos hi, if_pos hi] at this
    · apply Int64.toBitVec_inj.mp
      apply BitVec.eq_of_getLsbD_eq
      intro i hi
      have := congrFun e (i + 64)
      unfold pB at this
      rwa [if_neg (by omega), if_neg (by omega), Nat.add_sub_cancel] at this
  · rintro ⟨rfl, rfl⟩
    rfl
theorem pB_or (l h l' h' : Int64) : pB (l ||| l') (h ||| h') = fun k => pB l h k || pB l' h' k := by
  funext k
  unfold pB
  by_cases c : k < 64
  · rw [if_pos c, if_pos c, if_pos c, Int64.toBitVec_or, BitVec.getLsbD_or]
  · rw [if_neg c, if_neg c, if_neg c, Int64.toBitVec_or, BitVec.getLsbD_or]
theorem pB_and (l h l' h' : Int64) : pB (l &&& l') (h &&& h') = fun k => pB l h k && pB l' h' k := by
  funext k
  unfold pB
  by_cases c : k < 64
  · rw [if_pos c, if_pos c, if_pos c, Int64.toBitVec_and, BitVec.getLsbD_and]
  · rw [if_neg c, if_neg c, if_neg c, Int64.toBitVec_and, BitVec.getLsbD_and]
theorem pB_xor (l h l' h' : Int64) : pB (l ^^^ l') (h ^^^ h') = fun k => (pB l h k ^^ pB l' h' k) := by
  funext k
  unfold pB
  by_cases c : k < 64
  · rw [if_pos c, if_pos c, if_pos c, Int64.toBitVec_xor, BitVec.getLsbD_xor]
  · rw [if_neg c, if_neg c, if_neg c, Int64.toBitVec_xor, BitVec.getLsbD_xor]
theorem bit_m1 {k : Nat} (h : k < 64) : (-1 : Int64).toBitVec.getLsbD k = true := by
  rw [show (-1 : Int64).toBitVec = BitVec.allOnes 64 from by decide, BitVec.getLsbD_allOnes]
  exact decide_eq_true h
theorem bit_big (x : Int64) {k : Nat} (h : 64 ≤ k) : x.toBitVec.getLsbD k = false := BitVec.getLsbD_of_ge _ _ h
theorem pB_dif (l h l' h' : Int64) : pB (l &&& (l' ^^^ (-1))) (h &&& (h' ^^^ (-1))) = fun k => pB l h k && !pB l' h' k := by
  funext k
  unfold pB
  by_cases c : k < 64
  · rw [if_pos c, if_pos c, if_pos c, Int64.toBitVec_and, BitVec.getLsbD_and, Int64.toBitVec_xor, BitVec.getLsbD_xor, bit_m1 c, Bool.xor_true]
  · rw [if_neg c, if_neg c, if_neg c, Int64.toBitVec_and, BitVec.getLsbD_and, Int64.toBitVec_xor, BitVec.getLsbD_xor]
    by_cases c2 : k - 64 < 64
    · rw [bit_m1 c2, Bool.xor_true]
    · rw [bit_big h (by omega), Bool.false_and, Bool.false_and]
theorem bit_0 (k : Nat) : (0 : Int64).toBitVec.getLsbD k = false := BitVec.getLsbD_zero
theorem pB_0 : pB 0 0 = fun _ => false := by
  funext k
  unfold pB
  rw [bit_0, bit_0, ite_self]
theorem pB_big (l h : Int64) {k : Nat} (c : 128 ≤ k) : pB l h k = false := by
  unfold pB
  rw [if_neg (by omega), bit_big h (by omega)]
/-! the rows of the two states -/
def cB (s : cS) (n : Nat) : BS := pB (sL s n) (sH s n)
def mB (m : mS) (r : Nat) : BS := fun k => decide (k < 102) && decide (mR m r k ≠ 0)
def wfB (x : BS) : Prop := ∀ k, 102 ≤ k → x k = false
def Wf (s : cS) : Prop := ∀ n, wfB (cB s n)
def Vm (m : mS) : Prop := ∀ r k, mR m r k = 0 ∨ mR m r k = 1
theorem mB_wf (m : mS) (r : Nat) : wfB (mB m r) := fun k h => by
  unfold mB
  rw [decide_eq_false (by omega), Bool.false_and]
theorem mB_in (m : mS) (r : Nat) {k : Nat} (h : k < 102) : mB m r k = decide (mR m r k ≠ 0) := by
  unfold mB
  rw [decide_eq_true h, Bool.true_and]
theorem mB_0 {m : mS} {r k : Nat} (h : k < 102) : mR m r k = 0 ↔ mB m r k = false := by
  rw [mB_in m r h, decide_eq_false_iff_not, Decidable.not_not]
theorem mR_bi {m : mS} (V : Vm m) {r k : Nat} (h : k < 102) : mR m r k = bi (mB m r k) := by
  rw [mB_in m r h]
  rcases V r k with e | e <;> rw [e] <;> rfl
theorem mB_eq {m : mS} (V : Vm m) {r q k : Nat} (h : k < 102) : mR m r k = mR m q k ↔ mB m r k = mB m q k := by
  rw [mR_bi V h, mR_bi V h, bi_inj]
theorem BS_ext {x y : BS} (hx : wfB x) (hy : wfB y) (h : ∀ k, k < 102 → x k = y k) : x = y := by
  funext k
  by_cases c : k < 102
  · exact h k c
  · rw [hx k (by omega), hy k (by omega)]
theorem wfB_up {f : Nat → BS} {x : BS} {n : Nat} (h : ∀ q, wfB (f q)) (hx : wfB x) : ∀ q, wfB (va_up f n x q) := by
  intro q
  by_cases c : q = n
  · subst c
    rw [zu_at]
    exact hx
  · rw [zu_ne _ c]
    exact h q
/-! what one does with sets -/
noncomputable def same (x y : BS) : Bool := pd (x = y)
noncomputable def inn (x y : BS) : Bool := pd (∀ k, x k = true → y k = true)
noncomputable def apart (x y : BS) : Bool := pd (∀ k, ¬ (x k = true ∧ y k = true))
noncomputable def ahead (x y : BS) : Bool := pd (∃ k, x k = true ∧ y k = false ∧ ∀ j, j < k → x j = y j)
def jn (how : Int32) (x y : BS) : BS := fun k => if how = 0 then x k || y k else if how = 1 then x k && y k else if how = 2 then x k && !y k else (x k ^^ y k)
theorem jn_0 (x y : BS) : jn 0 x y = fun k => x k || y k := rfl
theorem jn_1 (x y : BS) : jn 1 x y = fun k => x k && y k := rfl
theorem jn_2 (x y : BS) : jn 2 x y = fun k => x k && !y k := rfl
theorem jn_3 (x y : BS) : jn 3 x y = fun k => (x k ^^ y k) := rfl
theorem jn_wf {how : Int32} {x y : BS} (hx : wfB x) (hy : wfB y) : wfB (jn how x y) := by
  intro k h
  unfold jn
  rw [hx k h, hy k h]
  simp
def sz (x : BS) : Nat := fb_ct x 102
theorem sz_le (x : BS) : sz x ≤ 102 := fb_ct_le x 102
def sumI (x : BS) : Nat → Int32
  | 0 => 0
  | k + 1 => if x (k + 1) then sumI x k + (nI (k + 1) - 51) else sumI x k
/-! the class's state: what a store leaves -/
theorem b_sL_uL (s : cS) (n : Nat) (v : Int64) (q : Nat) : sL (uL s n v) q = if q = n then v else sL s q := rfl
theorem b_sH_uH (s : cS) (n : Nat) (v : Int64) (q : Nat) : sH (uH s n v) q = if q = n then v else sH s q := rfl
theorem b_sI_uI (s : cS) (n : Nat) (v : Int32) (q : Nat) : sI (uI s n v) q = if q = n then v else sI s q := rfl
theorem b_sT_uT (s : cS) (n : Nat) (v : Int32) (q : Nat) : sT (uT s n v) q = if q = n then v else sT s q := rfl
theorem sI_at (s : cS) (n : Nat) (v : Int32) : sI (uI s n v) n = v := if_pos rfl
theorem sI_ne (s : cS) {n q : Nat} (h : q ≠ n) (v : Int32) : sI (uI s n v) q = sI s q := if_neg h
theorem cB_uI (s : cS) (n : Nat) (v : Int32) : cB (uI s n v) = cB s := rfl
theorem cB_uT (s : cS) (n : Nat) (v : Int32) : cB (uT s n v) = cB s := rfl
theorem cB_up (s : cS) (n : Nat) (x y : Int64) : cB (uH (uL s n x) n y) = va_up (cB s) n (pB x y) := by
  funext q
  by_cases c : q = n
  · subst c
    rw [zu_at]
    unfold cB
    rw [b_sH_uH, if_pos rfl]
    show pB (sL (uL s q x) q) y = _
    rw [b_sL_uL, if_pos rfl]
  · rw [zu_ne _ c]
    unfold cB
    rw [b_sH_uH, if_neg c]
    show pB (sL (uL s n x) q) (sH s q) = _
    rw [b_sL_uL, if_neg c]
/-! ===== MemberSet: each method by what it does with sets ===== -/
theorem nI_m64 {k : Nat} (h : k < 102) : nI k - nI k / 64 * 64 = nI (k % 64) := pk_rem (a := k) (d := 64) (by omega) (by decide) (by decide)
theorem sh_tn {j : Nat} (h : j < 64) : ((nI j).toInt64.toUInt64 &&& Int64.toUInt64 63).toNat = j := by
  rw [wb_cu j h]
  show (BitVec.ofNat 64 j).toNat = j
  rw [BitVec.toNat_ofNat, Nat.mod_eq_of_lt (by omega)]
theorem p_holds (n : Nat) (s : cS) {k : Nat} (h : k < 102) : fX2_holds n (nI k) s = bi (cB s n k) := by
  unfold fX2_holds
  rw [if_neg (nI_pos (by omega)), if_pos (show nI k < 102 from nI_lt h (by decide)), nI_m64 h]
  unfold cB pB
  by_cases c : k < 64
  · rw [if_neg (show ¬ (64 : Int32) ≤ nI k from nI_ge c (by decide)), if_pos c, Nat.mod_eq_of_lt c]
    have t := ts_bit (w := sL s n) c (sh_tn c)
    cases e : (sL s n).toBitVec.getLsbD k
    · rw [if_pos ((lg_cmp_eq _ _).mpr (t.mpr e))]; rfl
    · rw [if_neg (fun z => by rw [t.mp ((lg_cmp_eq _ _).mp z)] at e; exact Bool.noConfusion e)]; rfl
  · rw [if_pos (show (64 : Int32) ≤ nI k from nI_le (a := 64) (by omega) (by omega)), if_neg c, show k % 64 = k - 64 from by omega]
    have t := ts_bit (w := sH s n) (j := k - 64) (by omega) (sh_tn (by omega))
    cases e : (sH s n).toBitVec.getLsbD (k - 64)
    · rw [if_pos ((lg_cmp_eq _ _).mpr (t.mpr e))]; rfl
    · rw [if_neg (fun z => by rw [t.mp ((lg_cmp_eq _ _).mp z)] at e; exact Bool.noConfusion e)]; rfl
theorem tw_bit : ∀ j, j < 64 → ((1 : Int64) <<< ((nI j).toInt64 &&& 63)).toBitVec = BitVec.twoPow 64 j := by decide +kernel
theorem p_flip (n : Nat) (s : cS) {k : Nat} (h : k < 102) : ∃ s', fX2_flip n (nI k) s = some s' ∧ cB s' = va_up (cB s) n (va_up (cB s n) k (!cB s n k)) ∧ s'.2.2 = s.2.2 := by
  unfold fX2_flip
  rw [nI_m64 h]
  by_cases c : k < 64
  · rw [if_neg (show ¬ (64 : Int32) ≤ nI k from nI_ge c (by decide)), Nat.mod_eq_of_lt c]
    refine ⟨_, rfl, ?_, rfl⟩
    funext q
    by_cases d : q = n
    · subst d
      rw [zu_at]
      funext j
      unfold cB
      show pB (sL (uL s q _) q) (sH s q) j = _
      rw [b_sL_uL, if_pos rfl]
      unfold pB
      rw [Int64.toBitVec_xor, BitVec.getLsbD_xor, tw_bit k c, BitVec.getLsbD_twoPow]
      by_cases e : j = k
      · subst e
        rw [zu_at, if_pos c, if_pos c]
        simp [c]
      · rw [zu_ne _ e]
        by_cases f : j < 64
        · rw [if_pos f, if_pos f]
          simp [c, Ne.symm e]
        · rw [if_neg f, if_neg f]
    · rw [zu_ne _ d]
      unfold cB
      show pB (sL (uL s n _) q) (sH s q) = _
      rw [b_sL_uL, if_neg d]
  · rw [if_pos (show (64 : Int32) ≤ nI k from nI_le (a := 64) (by omega) (by omega)), show k % 64 = k - 64 from by omega]
    refine ⟨_, rfl, ?_, rfl⟩
    funext q
    by_cases d : q = n
    · subst d
      rw [zu_at]
      funext j
      unfold cB
      show pB (sL s q) (sH (uH s q _) q) j = _
      rw [b_sH_uH, if_pos rfl]
      unfold pB
      rw [Int64.toBitVec_xor, BitVec.getLsbD_xor, tw_bit (k - 64) (by omega), BitVec.getLsbD_twoPow]
      by_cases e : j = k
      · subst e
        rw [zu_at, if_neg c, if_neg c]
        simp [show j - 64 < 64 from by omega]
      · rw [zu_ne _ e]
        by_cases f : j < 64
        · rw [if_pos f, if_pos f]
        · rw [if_neg f, if_neg f]
          simp [show k - 64 < 64 from by omega, show ¬ k - 64 = j - 64 from by omega]
    · rw [zu_ne _ d]
      unfold cB
      show pB (sL s q) (sH (uH s n _) q) = _
      rw [b_sH_uH, if_neg d]
theorem p_put (n : Nat) (s : cS) {k : Nat} (h : k < 102) : ∃ s', fX2_put n (nI k) s = some (bi (!cB s n k), s') ∧ cB s' = va_up (cB s) n (va_up (cB s n) k true) ∧ s'.2.2 = s.2.2 := by
  unfold fX2_put
  rw [if_neg (nI_pos (by omega)), if_neg (show ¬ (102 : Int32) ≤ nI k from nI_ge h (by decide)), p_holds n s h, if_bi]
  cases e : cB s n k
  · obtain ⟨s', h1, h2, h3⟩ := p_flip n s h
    rw [if_neg (fun z => Bool.noConfusion z), h1]
    refine ⟨s', rfl, ?_, h3⟩
    rw [h2, e]
    rfl
  · rw [if_pos rfl]
    refine ⟨s, rfl, ?_, rfl⟩
    rw [← e, zu_self, zu_self]
theorem p_takeOut (n : Nat) (s : cS) {k : Nat} (h : k < 102) : ∃ s', fX2_takeOut n (nI k) s = some (bi (cB s n k), s') ∧ cB s' = va_up (cB s) n (va_up (cB s n) k false) ∧ s'.2.2 = s.2.2 := by
  unfold fX2_takeOut
  rw [p_holds n s h, if_bi]
  cases e : cB s n k
  · rw [if_neg (fun z => Bool.noConfusion z)]
    refine ⟨s, rfl, ?_, rfl⟩
    rw [← e, zu_self, zu_self]
  · obtain ⟨s', h1, h2, h3⟩ := p_flip n s h
    rw [if_pos rfl, h1]
    refine ⟨s', rfl, ?_, h3⟩
    rw [h2, e]
    rfl
theorem p_empty (n : Nat) (s : cS) : ∃ s', fX2_empty n s = some s' ∧ cB s' = va_up (cB s) n (fun _ => false) ∧ s'.2.2 = s.2.2 := by
  refine ⟨_, rfl, ?_, rfl⟩
  rw [cB_up, pB_0]
theorem p_become (n p : Nat) (s : cS) : ∃ s', fX2_become n p s = some s' ∧ cB s' = va_up (cB s) n (cB s p) ∧ s'.2.2 = s.2.2 := by
  refine ⟨_, rfl, ?_, rfl⟩
  rw [cB_up]
  rfl
theorem cmb (s : cS) (n : Nat) (X Y : Int64) : (if lg_cmp (sL (uH (uL s n X) n Y) n) (sL s n) = 0 then (if lg_cmp (sH (uH (uL s n X) n Y) n) (sH s n) = 0 then some ((0 : Int32), uH (uL s n X) n Y) else some (1, uH (uL s n X) n Y)) else some (1, uH (uL s n X) n Y)) = some (bi (!same (cB s n) (pB X Y)), uH (uL s n X) n Y) := by
  have e1 : sL (uH (uL s n X) n Y) n = X := by
    show sL (uL s n X) n = X
    rw [b_sL_uL, if_pos rfl]
  have e2 : sH (uH (uL s n X) n Y) n = Y := by rw [b_sH_uH, if_pos rfl]
  rw [e1, e2]
  have k : same (cB s n) (pB X Y) = true ↔ sL s n = X ∧ sH s n = Y := by
    unfold same cB
    rw [pd_iff, pB_inj]
  by_cases a : X = sL s n
  · rw [if_pos ((lg_cmp_eq _ _).mpr a)]
    by_cases b : Y = sH s n
    · rw [if_pos ((lg_cmp_eq _ _).mpr b), k.mpr ⟨a.symm, b.symm⟩]
      rfl
    · rw [if_neg (fun z => b ((lg_cmp_eq _ _).mp z)), ts_nt' (fun z => b (k.mp z).2.symm)]
      rfl
  · rw [if_neg (fun z => a ((lg_cmp_eq _ _).mp z)), ts_nt' (fun z => a (k.mp z).1.symm)]
    rfl
theorem cmb2 (s : cS) (n : Nat) (X Y : Int64) {Z : BS} (e : pB X Y = Z) : ∃ s', (if lg_cmp (sL (uH (uL s n X) n Y) n) (sL s n) = 0 then (if lg_cmp (sH (uH (uL s n X) n Y) n) (sH s n) = 0 then some ((0 : Int32), uH (uL s n X) n Y) else some (1, uH (uL s n X) n Y)) else some (1, uH (uL s n X) n Y)) = some (bi (!same (cB s n) Z), s') ∧ cB s' = va_up (cB s) n Z ∧ s'.2.2 = s.2.2 := by
  subst e
  exact ⟨_, cmb s n X Y, cB_up s n X Y, rfl⟩
theorem p_combine (n : Nat) (how : Int32) (p : Nat) (s : cS) : ∃ s', fX2_combine n how p s = some (bi (!same (cB s n) (jn how (cB s n) (cB s p))), s') ∧ cB s' = va_up (cB s) n (jn how (cB s n) (cB s p)) ∧ s'.2.2 = s.2.2 := by
  unfold fX2_combine
  by_cases c0 : how = 0
  · subst c0
    rw [if_pos rfl, jn_0]
    exact cmb2 s n _ _ (pB_or (sL s n) (sH s n) (sL s p) (sH s p))
  rw [if_neg c0]
  by_cases c1 : how = 1
  · subst c1
    rw [if_pos rfl, jn_1]
    exact cmb2 s n _ _ (pB_and (sL s n) (sH s n) (sL s p) (sH s p))
  rw [if_neg c1]
  by_cases c2 : how = 2
  · subst c2
    rw [if_pos rfl, jn_2]
    exact cmb2 s n _ _ (pB_dif (sL s n) (sH s n) (sL s p) (sH s p))
  rw [if_neg c2]
  have e : jn how (cB s n) (cB s p) = fun k => (cB s n k ^^ cB s p k) := by
    funext k
    unfold jn
    rw [if_neg c0, if_neg c1, if_neg c2]
  rw [e]
  exact cmb2 s n _ _ (pB_xor (sL s n) (sH s n) (sL s p) (sH s p))
theorem two_if (a b : Int64) (c d : Int64) (B : Bool) (h : B = true ↔ a = b ∧ c = d) : (if lg_cmp a b = 0 then (if lg_cmp c d = 0 then (1 : Int32) else 0) else 0) = bi B := by
  by_cases x : a = b
  · rw [if_pos ((lg_cmp_eq _ _).mpr x)]
    by_cases y : c = d
    · rw [if_pos ((lg_cmp_eq _ _).mpr y), h.mpr ⟨x, y⟩]
      rfl
    · rw [if_neg (fun z => y ((lg_cmp_eq _ _).mp z)), ts_nt' (fun z => y (h.mp z).2)]
      rfl
  · rw [if_neg (fun z => x ((lg_cmp_eq _ _).mp z)), ts_nt' (fun z => x (h.mp z).1)]
    rfl
theorem pB_none (X Y : Int64) : (X = 0 ∧ Y = 0) ↔ ∀ k, pB X Y k = false := by
  rw [← pB_inj (l := X) (h := Y) (l' := 0) (h' := 0), pB_0]
  exact ⟨fun h k => congrFun h k, fun h => funext h⟩
theorem p_holdsAll (n p : Nat) (s : cS) : fX2_holdsAll n p s = bi (inn (cB s p) (cB s n)) := by
  unfold fX2_holdsAll
  apply two_if
  rw [pB_none, pB_dif]
  unfold inn
  rw [pd_iff]
  exact forall_congr' fun k => by
    show _ ↔ (pB (sL s p) (sH s p) k && !pB (sL s n) (sH s n) k) = false
    show (pB (sL s p) (sH s p) k = true → pB (sL s n) (sH s n) k = true) ↔ _
    cases pB (sL s p) (sH s p) k <;> cases pB (sL s n) (sH s n) k <;> decide
theorem p_sharesNone (n p : Nat) (s : cS) : fX2_sharesNone n p s = bi (apart (cB s n) (cB s p)) := by
  unfold fX2_sharesNone
  apply two_if
  rw [pB_none, pB_and]
  unfold apart
  rw [pd_iff]
  exact forall_congr' fun k => by
    show ¬ (pB (sL s n) (sH s n) k = true ∧ pB (sL s p) (sH s p) k = true) ↔ (pB (sL s n) (sH s n) k && pB (sL s p) (sH s p) k) = false
    cases pB (sL s p) (sH s p) k <;> cases pB (sL s n) (sH s n) k <;> decide
theorem p_sameAs (n p : Nat) (s : cS) : fX2_sameAs n p s = bi (same (cB s n) (cB s p)) := by
  unfold fX2_sameAs
  apply two_if
  unfold same cB
  rw [pd_iff, pB_inj]
/-! the lowest bit in which two words differ -/
theorem low_bit (a b : Int64) : ((a &&& (a ^^^ b)) &&& (-(a ^^^ b))) = 0 ↔ ¬ ∃ i, i < 64 ∧ a.toBitVec.getLsbD i = true ∧ b.toBitVec.getLsbD i = false ∧ ∀ j, j < i → a.toBitVec.getLsbD j = b.toBitVec.getLsbD j := by
  have key : ∀ i, i < 64 → (((a &&& (a ^^^ b)) &&& (-(a ^^^ b))).toBitVec.getLsbD i = true ↔ a.toBitVec.getLsbD i = true ∧ b.toBitVec.getLsbD i = false ∧ ∀ j, j < i → a.toBitVec.getLsbD j = b.toBitVec.getLsbD j) := by
    intro i hi
    rw [Int64.toBitVec_and, Int64.toBitVec_and, Int64.toBitVec_neg, BitVec.getLsbD_and, BitVec.getLsbD_and, BitVec.getLsbD_neg, Int64.toBitVec_xor, BitVec.getLsbD_xor]
    have hx : (decide (∃ j, j < i ∧ (a.toBitVec ^^^ b.toBitVec).getLsbD j = true)) = true ↔ ¬ ∀ j, j < i → a.toBitVec.getLsbD j = b.toBitVec.getLsbD j := by
      rw [decide_eq_true_iff]
      constructor
      · rintro ⟨j, hj, e⟩ h
        rw [BitVec.getLsbD_xor, h j hj, Bool.xor_self] at e
        exact Bool.noConfusion e
      · intro h
        apply Classical.byContradiction
        intro g
        apply h
        intro j hj
        apply Classical.byContradiction
        intro e
        apply g
        refine ⟨j, hj, ?_⟩
        rw [BitVec.getLsbD_xor]
        revert e
        cases a.toBitVec.getLsbD j <;> cases b.toBitVec.getLsbD j <;> simp
    have hi2 : decide (i < 64) = true := decide_eq_true hi
    rw [hi2, Bool.true_and]
    by_cases g : ∀ j, j < i → a.toBitVec.getLsbD j = b.toBitVec.getLsbD j
    · have e : (decide (∃ j, j < i ∧ (a.toBitVec ^^^ b.toBitVec).getLsbD j = true)) = false := ts_nt' (fun z => hx.mp z g)
      rw [e]
      cases a.toBitVec.getLsbD i <;> cases b.toBitVec.getLsbD i <;> first | (simp; done) | (simp; exact g)
    · rw [hx.mpr g]
      cases a.toBitVec.getLsbD i <;> cases b.toBitVec.getLsbD i <;> simp [g]
  constructor
  · rintro e ⟨i, hi, h⟩
    have := (key i hi).mpr h
    rw [e, bit_0] at this
    exact Bool.noConfusion this
  · intro h
    apply Int64.toBitVec_inj.mp
    apply BitVec.eq_of_getLsbD_eq
    intro i hi
    rw [bit_0]
    exact ts_nt' (fun z => h ⟨i, hi, (key i hi).mp z⟩)
theorem p_comesBefore (n p : Nat) (s : cS) : fX2_comesBefore n p s = bi (ahead (cB s n) (cB s p)) := by
  unfold fX2_comesBefore
  have lo : ∀ k, k < 64 → ∀ q, cB s q k = (sL s q).toBitVec.getLsbD k := fun k hk q => by
    unfold cB pB
    rw [if_pos hk]
  have hi : ∀ k, ∀ q, cB s q (k + 64) = (sH s q).toBitVec.getLsbD k := fun k q => by
    unfold cB pB
    rw [if_neg (by omega), Nat.add_sub_cancel]
  by_cases c : sL s n = sL s p
  · have c' : (sL s n ^^^ sL s p) = 0 := by rw [c, Int64.xor_self]
    rw [if_pos ((lg_cmp_eq _ _).mpr c')]
    have : ahead (cB s n) (cB s p) = true ↔ ¬ (((sH s n) &&& ((sH s n) ^^^ (sH s p))) &&& (-((sH s n) ^^^ (sH s p)))) = 0 := by
      unfold ahead
      rw [pd_iff, low_bit, Classical.not_not]
      constructor
      · rintro ⟨k, h1, h2, h3⟩
        by_cases z : k < 64
        · rw [lo k z n, c, ← lo k z p, h2] at h1
          exact Bool.noConfusion h1
        · obtain ⟨i, rfl⟩ : ∃ i, k = i + 64 := ⟨k - 64, by omega⟩
          rw [hi] at h1 h2
          refine ⟨i, ?_, h1, h2, fun j hj => ?_⟩
          · apply Classical.byContradiction
            intro z2
            rw [bit_big _ (by omega)] at h1
            exact Bool.noConfusion h1
          · have := h3 (j + 64) (by omega)
            rwa [hi, hi] at this
      · rintro ⟨i, h0, h1, h2, h3⟩
        refine ⟨i + 64, by rw [hi, h1], by rw [hi, h2], fun j hj => ?_⟩
        by_cases z : j < 64
        · rw [lo j z, lo j z, c]
        · obtain ⟨q, rfl⟩ : ∃ i, j = i + 64 := ⟨j - 64, by omega⟩
          rw [hi, hi]
          exact h3 q (by omega)
    by_cases z : (((sH s n) &&& ((sH s n) ^^^ (sH s p))) &&& (-((sH s n) ^^^ (sH s p)))) = 0
    · rw [if_pos ((lg_cmp_eq _ _).mpr z), ts_nt' (fun h => this.mp h z)]
      rfl
    · rw [if_neg (fun h => z ((lg_cmp_eq _ _).mp h)), this.mpr z]
      rfl
  · have c' : ¬ (sL s n ^^^ sL s p) = 0 := fun e => c (by
      apply Int64.toBitVec_inj.mp
      apply BitVec.eq_of_getLsbD_eq
      intro i hi
      have : (sL s n ^^^ sL s p).toBitVec.getLsbD i = false := by rw [e, bit_0]
      rw [Int64.toBitVec_xor, BitVec.getLsbD_xor] at this
      revert this
      cases (sL s n).toBitVec.getLsbD i <;> cases (sL s p).toBitVec.getLsbD i <;> simp)
    rw [if_neg (fun h => c' ((lg_cmp_eq _ _).mp h))]
    have : ahead (cB s n) (cB s p) = true ↔ ¬ (((sL s n) &&& ((sL s n) ^^^ (sL s p))) &&& (-((sL s n) ^^^ (sL s p)))) = 0 := by
      unfold ahead
      rw [pd_iff, low_bit, Classical.not_not]
      constructor
      · rintro ⟨k, h1, h2, h3⟩
        have z : k < 64 := by
          apply Classical.byContradiction
          intro z
          apply c
          apply Int64.toBitVec_inj.mp
          apply BitVec.eq_of_getLsbD_eq
          intro i hi
          rw [← lo i hi, ← lo i hi]
          exact h3 i (by omega)
        rw [lo k z] at h1 h2
        refine ⟨k, z, h1, h2, fun j hj => ?_⟩
        rw [← lo j (by omega), ← lo j (by omega)]
        exact h3 j hj
      · rintro ⟨i, h0, h1, h2, h3⟩
        refine ⟨i, by rw [lo i h0, h1], by rw [lo i h0, h2], fun j hj => ?_⟩
        rw [lo j (by omega), lo j (by omega)]
        exact h3 j hj
    by_cases z : (((sL s n) &&& ((sL s n) ^^^ (sL s p))) &&& (-((sL s n) ^^^ (sL s p)))) = 0
    · rw [if_pos ((lg_cmp_eq _ _).mpr z), ts_nt' (fun h => this.mp h z)]
      rfl
    · rw [if_neg (fun h => z ((lg_cmp_eq _ _).mp h)), this.mpr z]
      rfl
/-! ===== Long.bitCount counts the bits ===== -/
theorem and_peel {a b m M : Nat} (ha : a < 256) (hm : m < 256) : (a + 256 * b) &&& (m + 256 * M) = (a &&& m) + 256 * (b &&& M) := by
  have hx : (a &&& m) < 2 ^ 8 := Nat.and_lt_two_pow _ hm
  apply Nat.eq_of_testBit_eq
  intro j
  rw [Nat.testBit_and, show a + 256 * b = 2 ^ 8 * b + a from by omega, show m + 256 * M = 2 ^ 8 * M + m from by omega, show (a &&& m) + 256 * (b &&& M) = 2 ^ 8 * (b &&& M) + (a &&& m) from by omega, Nat.testBit_two_pow_mul_add b (i := 8) ha, Nat.testBit_two_pow_mul_add M (i := 8) hm, Nat.testBit_two_pow_mul_add _ hx]
  by_cases c : j < 8
  · rw [if_pos c, if_pos c, if_pos c, Nat.testBit_and]
  · rw [if_neg c, if_neg c, if_neg c, Nat.testBit_and]
def mk8 (c : Nat) : Nat → Nat
  | 0 => 0
  | k + 1 => c + 256 * mk8 c k
def w1 (k x : Nat) : Nat := x - ((x / 2) &&& mk8 85 k)
def w2 (k z : Nat) : Nat := (z &&& mk8 51 k) + ((z / 4) &&& mk8 51 k)
def w3 (k w : Nat) : Nat := (w + w / 16) &&& mk8 15 k
def pc8 (y : Nat) : Nat := fb_ct (fun j => y.testBit j) 8
theorem k55 : ∀ y, y < 256 → ∀ c, c < 2 → (y / 2 + 128 * c) &&& 85 = (y / 2) &&& 85 := by decide +kernel
theorem k33 : ∀ y, y < 256 → ∀ c, c < 4 → (y / 4 + 64 * c) &&& 51 = (y / 4) &&& 51 := by decide +kernel
theorem k0f : ∀ y, y < 103 → ∀ c, c < 7 → (y + y / 16 + 16 * c) &&& 15 = (y + y / 16) &&& 15 ∧ y + y / 16 + 16 * c < 256 := by decide +kernel
theorem kpc : ∀ y, y < 256 → (((y - ((y / 2) &&& 85)) &&& 51) + (((y - ((y / 2) &&& 85)) / 4) &&& 51) + (((y - ((y / 2) &&& 85)) &&& 51) + (((y - ((y / 2) &&& 85)) / 4) &&& 51)) / 16) &&& 15 = pc8 y ∧ y - ((y / 2) &&& 85) < 256 ∧ ((y - ((y / 2) &&& 85)) &&& 51) + (((y - ((y / 2) &&& 85)) / 4) &&& 51) < 103 ∧ (y / 2) &&& 85 ≤ y ∧ pc8 y ≤ 8 := by decide +kernel
theorem w1_peel {y : Nat} (hy : y < 256) (x k : Nat) : w1 (k + 1) (y + 256 * x) = (y - ((y / 2) &&& 85)) + 256 * w1 k x := by
  have e : (y + 256 * x) / 2 = (y / 2 + 128 * (x % 2)) + 256 * (x / 2) := by omega
  have h1 := k55 y hy (x % 2) (Nat.mod_lt _ (by decide))
  have h2 := (kpc y hy).2.2.2.1
  have h3 : (x / 2) &&& mk8 85 k ≤ x := Nat.le_trans Nat.and_le_left (Nat.div_le_self _ _)
  unfold w1
  rw [e]
  show y + 256 * x - ((y / 2 + 128 * (x % 2) + 256 * (x / 2)) &&& (85 + 256 * mk8 85 k)) = _
  rw [and_peel (by omega) (by decide), h1]
  omega
theorem w2_peel {y : Nat} (hy : y < 256) (x k : Nat) : w2 (k + 1) (y + 256 * x) = ((y &&& 51) + ((y / 4) &&& 51)) + 256 * w2 k x := by
  have e : (y + 256 * x) / 4 = (y / 4 + 64 * (x % 4)) + 256 * (x / 4) := by omega
  have h1 := k33 y hy (x % 4) (Nat.mod_lt _ (by decide))
  unfold w2
  rw [e]
  show ((y + 256 * x) &&& (51 + 256 * mk8 51 k)) + ((y / 4 + 64 * (x % 4) + 256 * (x / 4)) &&& (51 + 256 * mk8 51 k)) = _
  rw [and_peel hy (by decide), and_peel (by omega) (by decide), h1]
  omega
theorem w2_low (z : Nat) : ∀ k, w2 k z % 16 < 7 := by
  intro k
  cases k with
  | zero => unfold w2 mk8; rw [Nat.and_zero, Nat.and_zero]; decide
  | succ k =>
    have h : ∀ a : Nat, (a &&& (51 + 256 * mk8 51 k)) % 16 ≤ 3 := by
      intro a
      have := Nat.and_two_pow_sub_one_eq_mod (a &&& (51 + 256 * mk8 51 k)) 4
      rw [show (2 : Nat) ^ 4 = 16 from rfl] at this
      rw [← this, Nat.and_assoc]
      have e : (51 + 256 * mk8 51 k) &&& (16 - 1) = 3 := by
        have := Nat.and_two_pow_sub_one_eq_mod (51 + 256 * mk8 51 k) 4
        rw [show (2 : Nat) ^ 4 = 16 from rfl] at this
        rw [this]
        omega
      rw [e]
      exact Nat.and_le_right
    have h1 := h z
    have h2 := h (z / 4)
    show ((z &&& (51 + 256 * mk8 51 k)) + ((z / 4) &&& (51 + 256 * mk8 51 k))) % 16 < 7
    omega
theorem w3_peel {y : Nat} (hy : y < 103) (x k : Nat) (hx : x % 16 < 7) : w3 (k + 1) (y + 256 * x) = ((y + y / 16) &&& 15) + 256 * w3 k x := by
  have e : (y + 256 * x) / 16 = y / 16 + 16 * (x % 16) + 256 * (x / 16) := by omega
  have h1 := k0f y hy (x % 16) hx
  unfold w3
  rw [e]
  show (y + 256 * x + (y / 16 + 16 * (x % 16) + 256 * (x / 16))) &&& (15 + 256 * mk8 15 k) = _
  rw [show y + 256 * x + (y / 16 + 16 * (x % 16) + 256 * (x / 16)) = (y + y / 16 + 16 * (x % 16)) + 256 * (x + x / 16) from by omega, and_peel h1.2 (by decide), h1.1]
/-- all three steps, byte by byte -/
def by8 : Nat → Nat → Nat
  | 0, _ => 0
  | k + 1, x => pc8 (x % 256) + 256 * by8 k (x / 256)
theorem w_all : ∀ (k x : Nat), x < 256 ^ k → w3 k (w2 k (w1 k x)) = by8 k x := by
  intro k
  induction k with
  | zero =>
    intro x h
    have : x = 0 := by simpa using h
    subst this
    rfl
  | succ k ih =>
    intro x h
    obtain ⟨y, z, hy, rfl⟩ : ∃ y z, y < 256 ∧ x = y + 256 * z := ⟨x % 256, x / 256, Nat.mod_lt _ (by decide), by omega⟩
    have hz : z < 256 ^ k := by
      rw [Nat.pow_succ] at h
      omega
    have q := kpc y hy
    rw [w1_peel hy, w2_peel q.2.1, w3_peel q.2.2.1 _ _ (w2_low _ _), ih z hz, q.1]
    show _ = pc8 ((y + 256 * z) % 256) + 256 * by8 k ((y + 256 * z) / 256)
    rw [show (y + 256 * z) % 256 = y from by omega, show (y + 256 * z) / 256 = z from by omega]
theorem pc8_le {y : Nat} (h : y < 256) : pc8 y ≤ 8 := (kpc y h).2.2.2.2
def s8 : Nat → Nat → Nat
  | 0, _ => 0
  | k + 1, x => pc8 (x % 256) + s8 k (x / 256)
theorem s8_ct : ∀ (k x : Nat), s8 k x = fb_ct (fun j => x.testBit j) (8 * k) := by
  intro k
  induction k with
  | zero => intro x; rfl
  | succ k ih =>
    intro x
    show pc8 (x % 256) + s8 k (x / 256) = _
    rw [ih, show 8 * (k + 1) = 8 + 8 * k from by omega, fb_ct_split]
    congr 1
    · unfold pc8
      apply fb_ct_cong
      intro j hj
      rw [show (256 : Nat) = 2 ^ 8 from rfl, Nat.testBit_mod_two_pow, decide_eq_true hj, Bool.true_and]
    · apply fb_ct_cong
      intro j _
      rw [show (256 : Nat) = 2 ^ 8 from rfl, Nat.testBit_div_two_pow, Nat.add_comm]
theorem fin8 {x : Nat} : ((by8 8 x + by8 8 x / 256 + (by8 8 x + by8 8 x / 256) / 65536) + (by8 8 x + by8 8 x / 256 + (by8 8 x + by8 8 x / 256) / 65536) / 4294967296) % 128 = s8 8 x ∧ by8 8 x < 2 ^ 60 := by
  have h : ∀ y, pc8 (y % 256) ≤ 8 := fun y => pc8_le (Nat.mod_lt _ (by decide))
  have h0 := h x
  have h1 := h (x / 256)
  have h2 := h (x / 256 / 256)
  have h3 := h (x / 256 / 256 / 256)
  have h4 := h (x / 256 / 256 / 256 / 256)
  have h5 := h (x / 256 / 256 / 256 / 256 / 256)
  have h6 := h (x / 256 / 256 / 256 / 256 / 256 / 256)
  have h7 := h (x / 256 / 256 / 256 / 256 / 256 / 256 / 256)
  simp only [by8, s8]
  generalize pc8 (x % 256) = a0 at *
  generalize pc8 (x / 256 % 256) = a1 at *
  generalize pc8 (x / 256 / 256 % 256) = a2 at *
  generalize pc8 (x / 256 / 256 / 256 % 256) = a3 at *
  generalize pc8 (x / 256 / 256 / 256 / 256 % 256) = a4 at *
  generalize pc8 (x / 256 / 256 / 256 / 256 / 256 % 256) = a5 at *
  generalize pc8 (x / 256 / 256 / 256 / 256 / 256 / 256 % 256) = a6 at *
  generalize pc8 (x / 256 / 256 / 256 / 256 / 256 / 256 / 256 % 256) = a7 at *
  clear h
  obtain ⟨A, eA⟩ : ∃ A, A = a0 + 256 * a1 + 65536 * a2 + 16777216 * a3 + 4294967296 * a4 + 1099511627776 * a5 + 281474976710656 * a6 + 72057594037927936 * a7 := ⟨_, rfl⟩
  rw [show a0 + 256 * (a1 + 256 * (a2 + 256 * (a3 + 256 * (a4 + 256 * (a5 + 256 * (a6 + 256 * (a7 + 256 * 0))))))) = A from by omega]
  have d1 : A / 256 = a1 + 256 * a2 + 65536 * a3 + 16777216 * a4 + 4294967296 * a5 + 1099511627776 * a6 + 281474976710656 * a7 := by omega
  obtain ⟨B, eB⟩ : ∃ B, B = A + A / 256 := ⟨_, rfl⟩
  have b1 : B = (a0 + a1) + 256 * (a1 + a2) + 65536 * (a2 + a3) + 16777216 * (a3 + a4) + 4294967296 * (a4 + a5) + 1099511627776 * (a5 + a6) + 281474976710656 * (a6 + a7) + 72057594037927936 * a7 := by rw [eB, d1, eA]; omega
  have d2 : B / 65536 = (a2 + a3) + 256 * (a3 + a4) + 65536 * (a4 + a5) + 16777216 * (a5 + a6) + 4294967296 * (a6 + a7) + 1099511627776 * a7 := by rw [b1]; clear b1 eB eA d1; omega
  obtain ⟨C, eC⟩ : ∃ C, C = B + B / 65536 := ⟨_, rfl⟩
  have c1 : C = (a0 + a1 + a2 + a3) + 256 * (a1 + a2 + a3 + a4) + 65536 * (a2 + a3 + a4 + a5) + 16777216 * (a3 + a4 + a5 + a6) + 4294967296 * (a4 + a5 + a6 + a7) + 1099511627776 * (a5 + a6 + a7) + 281474976710656 * (a6 + a7) + 72057594037927936 * a7 := by rw [eC, d2, b1]; clear d1 d2 eA eB eC b1; omega
  have d3 : C / 4294967296 = (a4 + a5 + a6 + a7) + 256 * (a5 + a6 + a7) + 65536 * (a6 + a7) + 16777216 * a7 := by rw [c1]; clear c1 d1 d2 eA eB eC b1; omega
  rw [← eB, ← eC]
  refine ⟨?_, ?_⟩
  · rw [d3, c1]
    clear d1 d2 d3 eA eB eC b1 c1
    omega
  · rw [eA]
    clear d1 d2 d3 eA eB eC b1 c1
    omega
theorem sh1 {n : Nat} (hn : n < 2 ^ 64) : ((lN n).toUInt64 >>> ((1 : Int32).toInt64.toUInt64 &&& Int64.toUInt64 63)).toInt64 = lN (n / 2) := wb_shr (k := 1) hn (by decide)
theorem sh2 {n : Nat} (hn : n < 2 ^ 64) : ((lN n).toUInt64 >>> ((2 : Int32).toInt64.toUInt64 &&& Int64.toUInt64 63)).toInt64 = lN (n / 4) := wb_shr (k := 2) hn (by decide)
theorem sh4 {n : Nat} (hn : n < 2 ^ 64) : ((lN n).toUInt64 >>> ((4 : Int32).toInt64.toUInt64 &&& Int64.toUInt64 63)).toInt64 = lN (n / 16) := wb_shr (k := 4) hn (by decide)
theorem sh8 {n : Nat} (hn : n < 2 ^ 64) : ((lN n).toUInt64 >>> ((8 : Int32).toInt64.toUInt64 &&& Int64.toUInt64 63)).toInt64 = lN (n / 256) := wb_shr (k := 8) hn (by decide)
theorem sh16 {n : Nat} (hn : n < 2 ^ 64) : ((lN n).toUInt64 >>> ((16 : Int32).toInt64.toUInt64 &&& Int64.toUInt64 63)).toInt64 = lN (n / 65536) := wb_shr (k := 16) hn (by decide)
theorem sh32 {n : Nat} (hn : n < 2 ^ 64) : ((lN n).toUInt64 >>> ((32 : Int32).toInt64.toUInt64 &&& Int64.toUInt64 63)).toInt64 = lN (n / 4294967296) := wb_shr (k := 32) hn (by decide)
theorem mk85 : mk8 85 8 = 6148914691236517205 := rfl
theorem mk51 : mk8 51 8 = 3689348814741910323 := rfl
theorem mk15 : mk8 15 8 = 1085102592571150095 := rfl
theorem p_bitCount {n : Nat} (hn : n < 2 ^ 64) (s : cS) : fJ13_bitCount_95d88 (lN n) s = nI (fb_ct (fun j => n.testBit j) 64) := by
  have e1 : lN n - (((lN n).toUInt64 >>> ((1 : Int32).toInt64.toUInt64 &&& Int64.toUInt64 63)).toInt64 &&& 6148914691236517205) = lN (w1 8 n) := by
    rw [sh1 hn]
    show lN n - (lN (n / 2) &&& lN 6148914691236517205) = _
    rw [wb_and (by omega) (by decide)]
    unfold w1
    rw [mk85]
    exact lN_sub (Nat.le_trans Nat.and_le_left (Nat.div_le_self _ _))
  have l1 : w1 8 n < 2 ^ 64 := Nat.lt_of_le_of_lt (Nat.sub_le _ _) hn
  have e2 : (lN (w1 8 n) &&& 3689348814741910323) + (((lN (w1 8 n)).toUInt64 >>> ((2 : Int32).toInt64.toUInt64 &&& Int64.toUInt64 63)).toInt64 &&& 3689348814741910323) = lN (w2 8 (w1 8 n)) := by
    rw [sh2 l1]
    show (lN (w1 8 n) &&& lN 3689348814741910323) + (lN (w1 8 n / 4) &&& lN 3689348814741910323) = _
    rw [wb_and l1 (by decide), wb_and (by omega) (by decide), lN_add]
    rfl
  have l2 : w2 8 (w1 8 n) < 2 ^ 63 := by
    have a : (w1 8 n &&& mk8 51 8) ≤ mk8 51 8 := Nat.and_le_right
    have b : ((w1 8 n / 4) &&& mk8 51 8) ≤ mk8 51 8 := Nat.and_le_right
    rw [mk51] at a b
    unfold w2
    rw [mk51]
    omega
  have e3 : (lN (w2 8 (w1 8 n)) + ((lN (w2 8 (w1 8 n))).toUInt64 >>> ((4 : Int32).toInt64.toUInt64 &&& Int64.toUInt64 63)).toInt64) &&& 1085102592571150095 = lN (by8 8 n) := by
    rw [sh4 (by omega), lN_add]
    show lN _ &&& lN 1085102592571150095 = _
    rw [wb_and (by omega) (by decide), ← w_all 8 n hn]
    rfl
  have f := fin8 (x := n)
  have l3 := f.2
  unfold fJ13_bitCount_95d88
  rw [e1, e2, e3, sh8 (by omega), lN_add, sh16 (by omega), lN_add, sh32 (by omega), lN_add, lN_i]
  rw [pk_and _ 7 (by decide)]
  rw [show ∀ X : Nat, (nI X).toBitVec.toNat = X % 4294967296 from fun X => BitVec.toNat_ofNat _ _, show (2 : Nat) ^ 7 = 128 from rfl, Nat.mod_mod_of_dvd _ (by decide), f.1, s8_ct]
theorem p_count (n : Nat) (s : cS) (W : Wf s) : fX2_count n s = nI (sz (cB s n)) := by
  obtain ⟨a, ha, ea⟩ := wb_of (sL s n)
  obtain ⟨b, hb, eb⟩ := wb_of (sH s n)
  unfold fX2_count
  rw [ea, eb, p_bitCount ha, p_bitCount hb, nI_add]
  have h1 : fb_ct (fun j => a.testBit j) 64 = fb_ct (cB s n) 64 := fb_ct_cong fun k hk => by
    unfold cB pB
    rw [if_pos hk, ea, wb_tb, BitVec.getLsbD_ofNat, decide_eq_true hk, Bool.true_and]
  have h2 : fb_ct (fun j => b.testBit j) 64 = fb_ct (fun k => cB s n (64 + k)) 64 := fb_ct_cong fun k hk => by
    unfold cB pB
    rw [if_neg (by omega), eb, wb_tb, BitVec.getLsbD_ofNat, show 64 + k - 64 = k from by omega, decide_eq_true hk, Bool.true_and]
  have h3 : fb_ct (cB s n) (102 + 26) = fb_ct (cB s n) 102 := by
    rw [fb_ct_split, fb_ct_zero.mpr (fun k _ => W n (102 + k) (by omega)), Nat.add_zero]
  unfold sz
  rw [h1, h2, ← fb_ct_split, ← h3]
