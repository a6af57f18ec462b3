/-! ===== sets as properties of places; the class's and the reference's rows as such ===== -/
abbrev BS : Type := Nat → Bool
def bi (b : Bool) : Int32 := if b then 1 else 0
theorem bi_0 {b : Bool} : bi b = 0 ↔ b = false := by cases b <;> decide
theorem bi_1 {b : Bool} : bi b = 1 ↔ b = true := by cases b <;> decide
theorem bi_inj {a b : Bool} : bi a = bi b ↔ a = b := by cases a <;> cases b <;> decide
theorem if_bi {α : Type} (b : Bool) (X Y : α) : (if bi b = 0 then X else Y) = if b then Y else X := by cases b <;> rfl
theorem if_bool {α : Type} {p : Prop} [Decidable p] {b : Bool} (h : p ↔ b = true) (X Y : α) : (if p then X else Y) = if b then X else Y := by
  cases b
  · rw [if_neg (fun c => Bool.noConfusion (h.mp c)), if_neg (fun c => Bool.noConfusion c)]
  · rw [if_pos (h.mpr rfl), if_pos rfl]
theorem if_boolf {α : Type} {p : Prop} [Decidable p] {b : Bool} (h : p ↔ b = false) (X Y : α) : (if p then X else Y) = if b then Y else X := by
  cases b
  · rw [if_pos (h.mpr rfl), if_neg (fun c => Bool.noConfusion c)]
  · rw [if_neg (fun c => Bool.noConfusion (h.mp c)), if_pos rfl]
noncomputable def pd (p : Prop) : Bool := @decide p (Classical.propDecidable p)
theorem pd_iff {p : Prop} : pd p = true ↔ p := by
  unfold pd
  exact @decide_eq_true_iff p (Classical.propDecidable p)
theorem pd_not {p : Prop} : pd p = false ↔ ¬ p := by
  unfold pd
  exact @decide_eq_false_iff_not p (Classical.propDecidable p)
theorem pd_congr {p q : Prop} (h : p ↔ q) : pd p = pd q := by rw [propext h]
theorem bool_ext {a b : Bool} (h : a = true ↔ b = true) : a = b := by
  cases a <;> cases b <;> simp_all
theorem ts_nt' {x : Bool} (h : ¬ x = true) : x = false := by cases x <;> first | rfl | exact absurd rfl h
theorem zu_at {α : Type} (f : Nat → α) (k : Nat) (v : α) : va_up f k v k = v := if_pos rfl
theorem zu_ne {α : Type} (f : Nat → α) {k j : Nat} (h : j ≠ k) (v : α) : va_up f k v j = f j := if_neg h
theorem zu_self {α : Type} (f : Nat → α) (k : Nat) : va_up f k (f k) = f := by
  funext j
  unfold va_up
  by_cases h : j = k
  · rw [if_pos h, h]
  · rw [if_neg h]
theorem zu_twice {α : Type} (f : Nat → α) (k : Nat) (v w : α) : va_up (va_up f k v) k w = va_up f k w := by
  funext j
  unfold va_up
  by_cases h : j = k
  · rw [if_pos h, if_pos h]
  · rw [if_neg h, if_neg h, if_neg h]
/-! two words as a set -/
def pB (l h : Int64) : BS := fun k => if k < 64 then l.toBitVec.getLsbD k else h.toBitVec.getLsbD (k - 64)
theorem pB_inj {l h l' h' : Int64} : pB l h = pB l' h' ↔ l = l' ∧ h = h' := by
  constructor
  · intro e
    constructor
    · apply Int64.toBitVec_inj.mp
      apply BitVec.eq_of_getLsbD_eq
      intro i hi
      have := congrFun e i
      unfold pB at this
      rwa [if_pos hi, if_pos hi] at this
    · apply Int64.toBitVec_inj.mp
      apply BitVec.eq_of_getLsbD_eq
      intro i hi
      have := congrFun e (i + 64)
      unfold pB at this
      rwa [if_neg (by omega), if_neg (by omega), Nat.add_sub_cancel] at this
  · rintro ⟨rfl, rfl⟩
    rfl
theorem pB_or (l h l' h' : Int64) : pB (l ||| l') (h ||| h') = fun k => pB l h k || pB l' h' k := by
  funext k
  unfold pB
  by_cases c : k < 64
  · rw [if_pos c, if_pos c, if_pos c, Int64.toBitVec_or, BitVec.getLsbD_or]
  · rw [if_neg c, if_neg c, if_neg c, Int64.toBitVec_or, BitVec.getLsbD_or]
theorem pB_and (l h l' h' : Int64) : pB (l &&& l') (h &&& h') = fun k => pB l h k && pB l' h' k := by
  funext k
  unfold pB
  by_cases c : k < 64
  · rw [if_pos c, if_pos c, if_pos c, Int64.toBitVec_and, BitVec.getLsbD_and]
  · rw [if_neg c, if_neg c, if_neg c, Int64.toBitVec_and, BitVec.getLsbD_and]
theorem pB_xor (l h l' h' : Int64) : pB (l ^^^ l') (h ^^^ h') = fun k => (pB l h k ^^ pB l' h' k) := by
  funext k
  unfold pB
  by_cases c : k < 64
  · rw [if_pos c, if_pos c, if_pos c, Int64.toBitVec_xor, BitVec.getLsbD_xor]
  · rw [if_neg c, if_neg c, if_neg c, Int64.toBitVec_xor, BitVec.getLsbD_xor]
theorem bit_m1 {k : Nat} (h : k < 64) : (-1 : Int64).toBitVec.getLsbD k = true := by
  rw [show (-1 : Int64).toBitVec = BitVec.allOnes 64 from by decide, BitVec.getLsbD_allOnes]
  exact decide_eq_true h
theorem bit_big (x : Int64) {k : Nat} (h : 64 ≤ k) : x.toBitVec.getLsbD k = false := BitVec.getLsbD_of_ge _ _ h
theorem pB_dif (l h l' h' : Int64) : pB (l &&& (l' ^^^ (-1))) (h &&& (h' ^^^ (-1))) = fun k => pB l h k && !pB l' h' k := by
  funext k
  unfold pB
  by_cases c : k < 64
  · rw [if_pos c, if_pos c, if_pos c, Int64.toBitVec_and, BitVec.getLsbD_and, Int64.toBitVec_xor, BitVec.getLsbD_xor, bit_m1 c, Bool.xor_true]
  · rw [if_neg c, if_neg c, if_neg c, Int64.toBitVec_and, BitVec.getLsbD_and, Int64.toBitVec_xor, BitVec.getLsbD_xor]
    by_cases c2 : k - 64 < 64
    · rw [bit_m1 c2, Bool.xor_true]
    · rw [bit_big h (by omega), Bool.false_and, Bool.false_and]
theorem bit_0 (k : Nat) : (0 : Int64).toBitVec.getLsbD k = false := BitVec.getLsbD_zero
theorem pB_0 : pB 0 0 = fun _ => false := by
  funext k
  unfold pB
  rw [bit_0, bit_0, ite_self]
theorem pB_big (l h : Int64) {k : Nat} (c : 128 ≤ k) : pB l h k = false := by
  unfold pB
  rw [if_neg (by omega), bit_big h (by omega)]
/-! the rows of the two states -/
def cB (s : cS) (n : Nat) : BS := pB (sL s n) (sH s n)
def mB (m : mS) (r : Nat) : BS := fun k => decide (k < 102) && decide (mR m r k ≠ 0)
def wfB (x : BS) : Prop := ∀ k, 102 ≤ k → x k = false
def Wf (s : cS) : Prop := ∀ n, wfB (cB s n)
def Vm (m : mS) : Prop := ∀ r k, mR m r k = 0 ∨ mR m r k = 1
theorem mB_wf (m : mS) (r : Nat) : wfB (mB m r) := fun k h => by
  unfold mB
  rw [decide_eq_false (by omega), Bool.false_and]
theorem mB_in (m : mS) (r : Nat) {k : Nat} (h : k < 102) : mB m r k = decide (mR m r k ≠ 0) := by
  unfold mB
  rw [decide_eq_true h, Bool.true_and]
theorem mB_0 {m : mS} {r k : Nat} (h : k < 102) : mR m r k = 0 ↔ mB m r k = false := by
  rw [mB_in m r h, decide_eq_false_iff_not, Decidable.not_not]
theorem mR_bi {m : mS} (V : Vm m) {r k : Nat} (h : k < 102) : mR m r k = bi (mB m r k) := by
  rw [mB_in m r h]
  rcases V r k with e | e <;> rw [e] <;> rfl
theorem mB_eq {m : mS} (V : Vm m) {r q k : Nat} (h : k < 102) : mR m r k = mR m q k ↔ mB m r k = mB m q k := by
  rw [mR_bi V h, mR_bi V h, bi_inj]
theorem BS_ext {x y : BS} (hx : wfB x) (hy : wfB y) (h : ∀ k, k < 102 → x k = y k) : x = y := by
  funext k
  by_cases c : k < 102
  · exact h k c
  · rw [hx k (by omega), hy k (by omega)]
theorem wfB_up {f : Nat → BS} {x : BS} {n : Nat} (h : ∀ q, wfB (f q)) (hx : wfB x) : ∀ q, wfB (va_up f n x q) := by
  intro q
  by_cases c : q = n
  · subst c
    rw [zu_at]
    exact hx
  · rw [zu_ne _ c]
    exact h q
/-! what one does with sets -/
noncomputable def same (x y : BS) : Bool := pd (x = y)
noncomputable def inn (x y : BS) : Bool := pd (∀ k, x k = true → y k = true)
noncomputable def apart (x y : BS) : Bool := pd (∀ k, ¬ (x k = true ∧ y k = true))
noncomputable def ahead (x y : BS) : Bool := pd (∃ k, x k = true ∧ y k = false ∧ ∀ j, j < k → x j = y j)
def jn (how : Int32) (x y : BS) : BS := fun k => if how = 0 then x k || y k else if how = 1 then x k && y k else if how = 2 then x k && !y k else (x k ^^ y k)
theorem jn_0 (x y : BS) : jn 0 x y = fun k => x k || y k := rfl
theorem jn_1 (x y : BS) : jn 1 x y = fun k => x k && y k := rfl
theorem jn_2 (x y : BS) : jn 2 x y = fun k => x k && !y k := rfl
theorem jn_3 (x y : BS) : jn 3 x y = fun k => (x k ^^ y k) := rfl
theorem jn_wf {how : Int32} {x y : BS} (hx : wfB x) (hy : wfB y) : wfB (jn how x y) := by
  intro k h
  unfold jn
  rw [hx k h, hy k h]
  simp
def sz (x : BS) : Nat := fb_ct x 102
theorem sz_le (x : BS) : sz x ≤ 102 := fb_ct_le x 102
def sumI (x : BS) : Nat → Int32
  | 0 => 0
  | k + 1 => if x (k + 1) then sumI x k + (nI (k + 1) - 51) else sumI x k
/-! the class's state: what a store leaves -/
theorem sL_uL (s : cS) (n : Nat) (v : Int64) (q : Nat) : sL (uL s n v) q = if q = n then v else sL s q := rfl
theorem sH_uH (s : cS) (n : Nat) (v : Int64) (q : Nat) : sH (uH s n v) q = if q = n then v else sH s q := rfl
theorem sI_uI (s : cS) (n : Nat) (v : Int32) (q : Nat) : sI (uI s n v) q = if q = n then v else sI s q := rfl
theorem sT_uT (s : cS) (n : Nat) (v : Int32) (q : Nat) : sT (uT s n v) q = if q = n then v else sT s q := rfl
theorem sI_at (s : cS) (n : Nat) (v : Int32) : sI (uI s n v) n = v := if_pos rfl
theorem sI_ne (s : cS) {n q : Nat} (h : q ≠ n) (v : Int32) : sI (uI s n v) q = sI s q := if_neg h
theorem cB_uI (s : cS) (n : Nat) (v : Int32) : cB (uI s n v) = cB s := rfl
theorem cB_uT (s : cS) (n : Nat) (v : Int32) : cB (uT s n v) = cB s := rfl
theorem cB_up (s : cS) (n : Nat) (x y : Int64) : cB (uH (uL s n x) n y) = va_up (cB s) n (pB x y) := by
  funext q
  by_cases c : q = n
  · subst c
    rw [zu_at]
    unfold cB
    rw [sH_uH, if_pos rfl]
    show pB (sL (uL s q x) q) y = _
    rw [sL_uL, if_pos rfl]
  · rw [zu_ne _ c]
    unfold cB
    rw [sH_uH, if_neg c]
    show pB (sL (uL s n x) q) (sH s q) = _
    rw [sL_uL, if_neg c]
