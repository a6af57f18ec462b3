/-! ===== how a state of the class and a state of the reference belong together ===== -/
def RelF (a : cS) (m : mS) : Prop := ∃ c, c ≤ 7 ∧ sI a 0 = nI c ∧ mI m 1 = nI c ∧ ∀ j, j < c → cB a (8 + j) = mB m (9 + j)
def RelT (a : cS) (m : mS) : Prop := ∃ L, L ≤ 200 ∧ sI a 2 = nI L ∧ mI m 3 = nI L ∧ ∀ k, k < L → ∃ b, 0 < b ∧ b < 256 ∧ sT a k = nI b ∧ mT m k = nI b
def Rel (a : cS) (m : mS) : Prop := Wf a ∧ Vm m ∧ (∀ i, i < 8 → cB a i = mB m i) ∧ RelF a m ∧ RelT a m
/-- what one sees of the class's state is as before -/
def aeq (a a' : cS) : Prop := (∀ n, n < 15 → cB a' n = cB a n) ∧ sI a' 0 = sI a 0 ∧ sI a' 2 = sI a 2 ∧ sT a' = sT a
def meq (m m' : mS) : Prop := (∀ r, r < 16 → r ≠ 8 → mB m' r = mB m r) ∧ mI m' 1 = mI m 1 ∧ mI m' 3 = mI m 3 ∧ mT m' = mT m
theorem aeq_refl (a : cS) : aeq a a := ⟨fun _ _ => rfl, rfl, rfl, rfl⟩
theorem meq_refl (m : mS) : meq m m := ⟨fun _ _ _ => rfl, rfl, rfl, rfl⟩
theorem aeq_trans {a b c : cS} (h : aeq a b) (g : aeq b c) : aeq a c := ⟨fun n hn => (g.1 n hn).trans (h.1 n hn), g.2.1.trans h.2.1, g.2.2.1.trans h.2.2.1, g.2.2.2.trans h.2.2.2⟩
theorem meq_trans {a b c : mS} (h : meq a b) (g : meq b c) : meq a c := ⟨fun n hn h8 => (g.1 n hn h8).trans (h.1 n hn h8), g.2.1.trans h.2.1, g.2.2.1.trans h.2.2.1, g.2.2.2.trans h.2.2.2⟩
theorem Rel_keep {a a' : cS} {m m' : mS} (h : Rel a m) (ha : aeq a a') (hm : meq m m') (W : Wf a') (V : Vm m') : Rel a' m' := by
  obtain ⟨_, _, h1, ⟨c, hc, f1, f2, f3⟩, ⟨L, hL, t1, t2, t3⟩⟩ := h
  refine ⟨W, V, fun i hi => ?_, ⟨c, hc, ha.2.1.trans f1, hm.2.1.trans f2, fun j hj => ?_⟩, ⟨L, hL, ha.2.2.1.trans t1, hm.2.2.1.trans t2, fun k hk => ?_⟩⟩
  · rw [ha.1 i (by omega), hm.1 i (by omega) (by omega)]
    exact h1 i hi
  · rw [ha.1 (8 + j) (by omega), hm.1 (9 + j) (by omega) (by omega)]
    exact f3 j hj
  · rw [ha.2.2.2, hm.2.2.2]
    exact t3 k hk
theorem Rel_row {a a' : cS} {m m' : mS} (h : Rel a m) {i : Nat} (hi : i < 8) {x : BS} (hx : wfB x) (ha : cB a' = va_up (cB a) i x) (ha2 : a'.2.2 = a.2.2) (hm : ∀ r, r < 16 → r ≠ 8 → mB m' r = va_up (mB m) i x r) (hm1 : mI m' 1 = mI m 1) (hm3 : mI m' 3 = mI m 3) (hmT : mT m' = mT m) (V : Vm m') : Rel a' m' := by
  obtain ⟨W, _, h1, ⟨c, hc, f1, f2, f3⟩, ⟨L, hL, t1, t2, t3⟩⟩ := h
  have eI : sI a' = sI a := by unfold sI; rw [ha2]
  have eT : sT a' = sT a := by unfold sT; rw [ha2]
  refine ⟨?_, V, fun j hj => ?_, ⟨c, hc, by rw [eI]; exact f1, hm1.trans f2, fun j hj => ?_⟩, ⟨L, hL, by rw [eI]; exact t1, hm3.trans t2, fun k hk => ?_⟩⟩
  · intro n
    rw [ha]
    exact wfB_up W hx n
  · rw [ha, hm j (by omega) (by omega)]
    by_cases e : j = i
    · rw [e, zu_at, zu_at]
    · rw [zu_ne _ e, zu_ne _ e]
      exact h1 j hj
  · rw [ha, hm (9 + j) (by omega) (by omega), zu_ne _ (by omega), zu_ne _ (by omega)]
    exact f3 j hj
  · rw [eT, hmT]
    exact t3 k hk
theorem Wf_up {a a' : cS} (W : Wf a) {n : Nat} {x : BS} (hx : wfB x) (h : cB a' = va_up (cB a) n x) : Wf a' := by
  intro q
  rw [h]
  exact wfB_up W hx q
theorem aeq_up {a a' : cS} {n : Nat} {x : BS} (hn : 15 ≤ n) (h : cB a' = va_up (cB a) n x) (h2 : a'.2.2 = a.2.2) : aeq a a' := by
  refine ⟨fun q hq => ?_, ?_, ?_, ?_⟩
  · rw [h, zu_ne _ (by omega)]
  · unfold sI; rw [h2]
  · unfold sI; rw [h2]
  · unfold sT; rw [h2]
theorem meq_up {m m' : mS} {n : Nat} {x : BS} (hn : 16 ≤ n ∨ n = 8) (h : mB m' = va_up (mB m) n x) (h2 : m'.2 = m.2) : meq m m' := by
  refine ⟨fun q hq h8 => ?_, ?_, ?_, ?_⟩
  · rw [h, zu_ne _ (by omega)]
  · unfold mI; rw [h2]
  · unfold mI; rw [h2]
  · unfold mT; rw [h2]
/-! the word of the last call -/
theorem mI_vI (m : mS) (k : Nat) (v : Int32) (j : Nat) : mI (vI m k v) j = if j = k then v else mI m j := rfl
theorem mB_vI (m : mS) (k : Nat) (v : Int32) : mB (vI m k v) = mB m := rfl
theorem mT_vI (m : mS) (k : Nat) (v : Int32) : mT (vI m k v) = mT m := rfl
theorem mR_vI (m : mS) (k : Nat) (v : Int32) : mR (vI m k v) = mR m := rfl
theorem Vm_vI {m : mS} (V : Vm m) (k : Nat) (v : Int32) : Vm (vI m k v) := V
theorem meq_v0 (m : mS) (v : Int32) : meq m (vI m 0 v) := ⟨fun _ _ _ => rfl, rfl, rfl, rfl⟩
theorem pass_1 (q : Int32) (m : mS) : fX8_passes 0 q m = some (0, vI m 0 1) := rfl
theorem pass_2 (m : mS) : fX8_passes 1 0 m = some (0, vI m 0 2) := rfl
theorem pass_0 (m : mS) : fX8_passes 1 1 m = some (1, vI m 0 0) := rfl
/-- the two sides of a call: the same answer, or the exception of that number -/
def Meets (e1 e2 : Nat) (A : Option ((Nat × cS) ⊕ (Int32 × cS))) (B : Option (Int32 × mS)) : Prop :=
  (∃ r a' m', A = some (.inr (r, a')) ∧ B = some (r, m') ∧ mI m' 0 = 0 ∧ Rel a' m') ∨ (∃ r a' m', A = some (.inl (e1, a')) ∧ B = some (r, m') ∧ mI m' 0 = 1 ∧ Rel a' m') ∨ (∃ r a' m', A = some (.inl (e2, a')) ∧ B = some (r, m') ∧ mI m' 0 = 2 ∧ Rel a' m')
theorem Meets.ok {e1 e2 : Nat} {A : Option ((Nat × cS) ⊕ (Int32 × cS))} {B : Option (Int32 × mS)} {r : Int32} {a' : cS} {m' : mS} (hA : A = some (.inr (r, a'))) (hB : B = some (r, m')) (h0 : mI m' 0 = 0) (hR : Rel a' m') : Meets e1 e2 A B := Or.inl ⟨r, a', m', hA, hB, h0, hR⟩
theorem Meets.e1 {e1 e2 : Nat} {A : Option ((Nat × cS) ⊕ (Int32 × cS))} {B : Option (Int32 × mS)} {r : Int32} {a : cS} {m : mS} (h : Rel a m) (hA : A = some (.inl (e1, a))) (hB : B = some (r, vI m 0 1)) : Meets e1 e2 A B := Or.inr (Or.inl ⟨r, a, _, hA, hB, rfl, Rel_keep h (aeq_refl a) (meq_v0 m 1) h.1 h.2.1⟩)
theorem Meets.e2 {e1 e2 : Nat} {A : Option ((Nat × cS) ⊕ (Int32 × cS))} {B : Option (Int32 × mS)} {r : Int32} {a : cS} {m : mS} (h : Rel a m) (hA : A = some (.inl (e2, a))) (hB : B = some (r, vI m 0 2)) : Meets e1 e2 A B := Or.inr (Or.inr ⟨r, a, _, hA, hB, rfl, Rel_keep h (aeq_refl a) (meq_v0 m 2) h.1 h.2.1⟩)
/-- nothing but the word of the call changes -/
theorem Rel_v0 {a : cS} {m : mS} (h : Rel a m) (v : Int32) : Rel a (vI m 0 v) := Rel_keep h (aeq_refl a) (meq_v0 m v) h.1 h.2.1
/-! numbers of sets -/
theorem set_in {i : Nat} (h : i < 8) : (∀ s, fX7_setAt (nI i) s = some (.inr (i, s))) ∧ ∀ m, fX8_isSet (nI i) m = 1 := by
  constructor
  · intro s
    unfold fX7_setAt
    rw [if_neg (nI_pos (by omega)), if_pos (show nI i < 8 from nI_lt h (by decide)), if_pos (vinI h (by decide)), nI_clamp (by omega)]
  · intro m
    unfold fX8_isSet fX8_in
    rw [if_neg (nI_pos (by omega)), if_neg (show ¬ (7 : Int32) < nI i from nI_nlt (a := 7) (b := i) (by omega) (by decide))]
theorem lt_asymm' {x y : Int32} (h : x < y) : ¬ y < x := fun g => Int32.lt_irrefl (Int32.lt_trans h g)
theorem set_or (p : Int32) : (∃ i, i < 8 ∧ p = nI i) ∨ ((∀ s, fX7_setAt p s = some (.inl (1, s))) ∧ ∀ m, fX8_isSet p m = 0) := by
  by_cases h : p < 0
  · right
    constructor
    · intro s
      unfold fX7_setAt
      rw [if_pos h]
    · intro m
      unfold fX8_isSet fX8_in
      rw [if_pos h]
  · obtain ⟨i, hi, rfl⟩ := nI_of h
    by_cases g : i < 8
    · exact Or.inl ⟨i, g, rfl⟩
    · right
      constructor
      · intro s
        unfold fX7_setAt
        rw [if_neg h, if_neg (show ¬ nI i < 8 from nI_nlt (a := i) (b := 8) (by omega) hi)]
      · intro m
        unfold fX8_isSet fX8_in
        rw [if_neg h, if_pos (show (7 : Int32) < nI i from nI_lt (a := 7) (b := i) (by omega) hi)]
theorem lt8 {i : Nat} (h : i < 8) : i < 55 := by omega
/-! ranges -/
theorem rng (p lo hi : Int32) : ((∀ s, fX7_checkRange p lo hi s = some (.inr s)) ∧ (∀ m, fX8_in p lo hi m = 1) ∧ lo ≤ p ∧ p ≤ hi) ∨ ((∀ s, fX7_checkRange p lo hi s = some (.inl (2, s))) ∧ ∀ m, fX8_in p lo hi m = 0) := by
  by_cases h : p < lo
  · right
    exact ⟨fun s => by unfold fX7_checkRange; rw [if_pos h], fun m => by unfold fX8_in; rw [if_pos h]⟩
  · by_cases g : p ≤ hi
    · left
      refine ⟨fun s => by unfold fX7_checkRange; rw [if_neg h, if_pos g], fun m => ?_, Int32.not_lt.mp h, g⟩
      unfold fX8_in
      rw [if_neg h, if_neg (fun z => Int32.lt_irrefl (Int32.lt_of_le_of_lt g z))]
    · right
      refine ⟨fun s => by unfold fX7_checkRange; rw [if_neg h, if_neg g], fun m => ?_⟩
      unfold fX8_in
      rw [if_neg h, if_pos (Int32.not_le.mp g)]
/-! members -/
theorem num_k {p : Int32} (h1 : -50 ≤ p) (h2 : p ≤ 50) : ∃ k, 0 < k ∧ k < 102 ∧ p = nI k - 51 := by
  have a : -50 ≤ p.toInt := by
    have := Int32.le_iff_toInt_le.mp h1
    rwa [show (-50 : Int32).toInt = -50 from by decide] at this
  have b : p.toInt ≤ 50 := by
    have := Int32.le_iff_toInt_le.mp h2
    rwa [show (50 : Int32).toInt = 50 from by decide] at this
  refine ⟨(p.toInt + 51).toNat, by omega, by omega, ?_⟩
  apply Int32.toInt_inj.mp
  have := pk_sub_toInt (a := (p.toInt + 51).toNat) (b := 51) (by omega) (by decide)
  rw [show nI 51 = (51 : Int32) from rfl] at this
  rw [this]
  omega
theorem k_num : ∀ k, k < 102 → 0 < k → (-50 : Int32) ≤ nI k - 51 ∧ nI k - 51 ≤ 50 ∧ ¬ (nI k - 51) < -50 ∧ ¬ (50 : Int32) < nI k - 51 ∧ ¬ nI k - 51 = 100 ∧ nI k - 51 + 51 = nI k ∧ nI k - 51 + 50 + 1 = nI k := by decide +kernel
theorem mem_or (p : Int32) : (∃ k, k < 102 ∧ (∀ s, fX7_indexOfMember p s = some (.inr (nI k, s))) ∧ (∀ m, fX8_isMember p m = 1) ∧ ∀ m, fX8_placeOfMember p m = nI k) ∨ ((∀ s, fX7_indexOfMember p s = some (.inl (2, s))) ∧ ∀ m, fX8_isMember p m = 0) := by
  by_cases h : p = 100
  · subst h
    exact Or.inl ⟨0, by decide, fun s => rfl, fun m => rfl, fun m => rfl⟩
  · by_cases g : p < -50
    · right
      constructor
      · intro s
        unfold fX7_indexOfMember fX7_isNumber
        rw [if_neg h, if_pos g, if_pos rfl]
      · intro m
        unfold fX8_isMember fX8_in
        rw [if_neg h, if_pos g, if_pos rfl]
    · by_cases g2 : 50 < p
      · right
        constructor
        · intro s
          unfold fX7_indexOfMember fX7_isNumber
          rw [if_neg h, if_neg g, if_pos g2, if_pos rfl]
        · intro m
          unfold fX8_isMember fX8_in
          rw [if_neg h, if_neg g, if_pos g2, if_pos rfl]
      · left
        obtain ⟨k, k0, k1, rfl⟩ := num_k (Int32.not_lt.mp g) (Int32.not_lt.mp g2)
        have q := k_num k k1 k0
        refine ⟨k, k1, fun s => ?_, fun m => ?_, fun m => ?_⟩
        · unfold fX7_indexOfMember fX7_isNumber
          rw [if_neg h, if_neg g, if_neg g2, if_neg (by decide), q.2.2.2.2.2.1]
        · unfold fX8_isMember fX8_in
          rw [if_neg h, if_neg g, if_neg g2, if_neg (by decide)]
        · unfold fX8_placeOfMember
          rw [if_neg h, q.2.2.2.2.2.2]
