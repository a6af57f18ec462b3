/-! ===== calls on one set, on two sets ===== -/
theorem bi_case {α : Type} (b : Bool) (s : α) : (if bi b = 0 then some ((0 : Int32), s) else some (1, s)) = some (bi b, s) := by cases b <;> rfl
theorem bi_casen {α : Type} (b : Bool) (s : α) : (if bi b = 0 then some ((1 : Int32), s) else some (0, s)) = some (bi (!b), s) := by cases b <;> rfl
theorem vin8 {i : Nat} (h : i < 8) : vin (nI i) 8 = true := vinI h (by decide)
theorem cl8 {i : Nat} (h : i < 8) : (nI i).toNatClampNeg = i := nI_clamp (by omega)
theorem vin102 {i : Nat} (h : i < 102) : vin (nI i) 102 = true := vinI h (by decide)
theorem cl102 {i : Nat} (h : i < 102) : (nI i).toNatClampNeg = i := nI_clamp (by omega)
theorem mB_set (m : mS) {i k : Nat} (hk : k < 102) (v : Bool) : mB (vR m i k (bi v)) = va_up (mB m) i (va_up (mB m i) k v) := by
  funext r j
  rw [mB_vR m hk]
  by_cases h : r = i
  · subst h
    rw [zu_at]
    by_cases g : j = k
    · subst g
      rw [zu_at, if_pos ⟨rfl, rfl⟩]
    · rw [zu_ne _ g, if_neg (fun z => g z.2)]
  · rw [zu_ne _ h, if_neg (fun z => h z.1)]
theorem m_puts {i k : Nat} (hi : i < 8) (hk : k < 102) {p : Int32} (hp : ∀ m, fX8_placeOfMember p m = nI k) {w : Int32} (v : Bool) (hw : w = bi v) {m : mS} (V : Vm m) : fX8_puts (nI i) p w m = some (bi (mB m i k ^^ v), vR m i k (bi v)) := by
  subst hw
  unfold fX8_puts
  simp only [hp, vin8 hi, vin102 hk, cl8 hi, cl102 hk, if_true, nb_bi]
  rw [mR_bi V hk, if_bool (b := !(mB m i k ^^ v)) (by rw [bi_inj]; cases mB m i k <;> cases v <;> decide)]
  cases mB m i k <;> cases v <;> rfl
theorem wf_set {x : BS} (hx : wfB x) {k : Nat} (hk : k < 102) (v : Bool) : wfB (va_up x k v) := fun j hj => by
  rw [zu_ne _ (by omega)]
  exact hx j hj
theorem Rel_set {a a' : cS} {m : mS} (h : Rel a m) {i k : Nat} (hi : i < 8) (hk : k < 102) (v : Bool) (e2 : cB a' = va_up (cB a) i (va_up (cB a i) k v)) (e3 : a'.2.2 = a.2.2) : Rel a' (vR m i k (bi v)) :=
  Rel_row h hi (wf_set (h.1 i) hk v) e2 e3 (fun r _ _ => by rw [mB_set m hk v, h.2.2.1 i hi]) rfl rfl rfl (Vm_vR h.2.1 _ _ _)
theorem g_add {a : cS} {m : mS} (h : Rel a m) (p q : Int32) : Meets 1 2 (fX7_add p q a) (fX8_add p q m) := by
  rcases set_or p with ⟨i, hi, rfl⟩ | ⟨s1, s2⟩
  · obtain ⟨s1, s2⟩ := set_in hi
    rcases mem_or q with ⟨k, hk, q1, q2, q3⟩ | ⟨q1, q2⟩
    · obtain ⟨a', e1, e2, e3⟩ := p_put i a hk
      have e := m_puts hi hk q3 (w := 1) true rfl (Vm_vI h.2.1 0 0)
      refine Meets.ok (r := bi (!cB a i k)) (a' := a') (m' := vR (vI m 0 0) i k (bi true)) ?_ ?_ rfl (Rel_set (Rel_v0 h 0) hi hk true e2 e3)
      · unfold fX7_add
        simp only [s1, q1, e1, Option.bind_some, Sum.elim_inr, if_pos (lt8 hi)]
      · unfold fX8_add
        simp only [s2, q2, pass_0, Option.bind_some, e, bi_case]
        rw [if_neg (by decide), mB_vI, h.2.2.1 i hi, Bool.xor_true]
    · refine Meets.e2 (r := 0) h ?_ ?_
      · unfold fX7_add
        simp only [s1, q1, Option.bind_some, Sum.elim_inr, Sum.elim_inl, if_pos (lt8 hi)]
      · unfold fX8_add
        simp only [s2, q2, pass_2, Option.bind_some, if_true]
  · refine Meets.e1 (r := 0) h ?_ ?_
    · unfold fX7_add
      simp only [s1, Option.bind_some, Sum.elim_inl]
    · unfold fX8_add
      simp only [s2, pass_1, Option.bind_some, if_true]
theorem g_remove {a : cS} {m : mS} (h : Rel a m) (p q : Int32) : Meets 1 2 (fX7_remove p q a) (fX8_remove p q m) := by
  rcases set_or p with ⟨i, hi, rfl⟩ | ⟨s1, s2⟩
  · obtain ⟨s1, s2⟩ := set_in hi
    rcases mem_or q with ⟨k, hk, q1, q2, q3⟩ | ⟨q1, q2⟩
    · obtain ⟨a', e1, e2, e3⟩ := p_takeOut i a hk
      have e := m_puts hi hk q3 (w := 0) false rfl (Vm_vI h.2.1 0 0)
      refine Meets.ok (r := bi (cB a i k)) (a' := a') (m' := vR (vI m 0 0) i k (bi false)) ?_ ?_ rfl (Rel_set (Rel_v0 h 0) hi hk false e2 e3)
      · unfold fX7_remove
        simp only [s1, q1, e1, Option.bind_some, Sum.elim_inr, if_pos (lt8 hi)]
      · unfold fX8_remove
        simp only [s2, q2, pass_0, Option.bind_some, e, bi_case]
        rw [if_neg (by decide), mB_vI, h.2.2.1 i hi, Bool.xor_false]
    · refine Meets.e2 (r := 0) h ?_ ?_
      · unfold fX7_remove
        simp only [s1, q1, Option.bind_some, Sum.elim_inr, Sum.elim_inl, if_pos (lt8 hi)]
      · unfold fX8_remove
        simp only [s2, q2, pass_2, Option.bind_some, if_true]
  · refine Meets.e1 (r := 0) h ?_ ?_
    · unfold fX7_remove
      simp only [s1, Option.bind_some, Sum.elim_inl]
    · unfold fX8_remove
      simp only [s2, pass_1, Option.bind_some, if_true]
theorem g_has {a : cS} {m : mS} (h : Rel a m) (p q : Int32) : Meets 1 2 (fX7_has p q a) (fX8_has p q m) := by
  rcases set_or p with ⟨i, hi, rfl⟩ | ⟨s1, s2⟩
  · obtain ⟨s1, s2⟩ := set_in hi
    rcases mem_or q with ⟨k, hk, q1, q2, q3⟩ | ⟨q1, q2⟩
    · refine Meets.ok (r := bi (cB a i k)) (a' := a) (m' := vI m 0 0) ?_ ?_ rfl (Rel_v0 h 0)
      · unfold fX7_has
        simp only [s1, q1, Option.bind_some, Sum.elim_inr, if_pos (lt8 hi), p_holds i a hk]
      · unfold fX8_has
        simp only [s2, q2, q3, pass_0, Option.bind_some, vin8 hi, vin102 hk, cl8 hi, cl102 hk, if_true, b_mR_vI, mR_bi h.2.1 hk, bi_case]
        rw [if_neg (by decide), h.2.2.1 i hi]
    · refine Meets.e2 (r := 0) h ?_ ?_
      · unfold fX7_has
        simp only [s1, q1, Option.bind_some, Sum.elim_inr, Sum.elim_inl, if_pos (lt8 hi)]
      · unfold fX8_has
        simp only [s2, q2, pass_2, Option.bind_some, if_true]
  · refine Meets.e1 (r := 0) h ?_ ?_
    · unfold fX7_has
      simp only [s1, Option.bind_some, Sum.elim_inl]
    · unfold fX8_has
      simp only [s2, pass_1, Option.bind_some, if_true]
theorem one_0 {α : Type} (X Y : α) : (if (1 : Int32) = 0 then X else Y) = Y := if_neg (by decide)
theorem g_size {a : cS} {m : mS} {ee : Nat} (h : Rel a m) (p : Int32) : Meets 1 ee (fX7_size p a) (fX8_size p m) := by
  rcases set_or p with ⟨i, hi, rfl⟩ | ⟨s1, s2⟩
  · obtain ⟨s1, s2⟩ := set_in hi
    refine Meets.ok (r := nI (sz (cB a i))) (a' := a) (m' := vI m 0 0) ?_ ?_ rfl (Rel_v0 h 0)
    · unfold fX7_size
      simp only [s1, Option.bind_some, Sum.elim_inr, if_pos (lt8 hi), p_count i a h.1]
    · unfold fX8_size
      simp only [s2, pass_0, Option.bind_some, one_0, vin8 hi, cl8 hi, if_true, m_sizeOf, mB_vI, h.2.2.1 i hi]
  · refine Meets.e1 (r := 0) h ?_ ?_
    · unfold fX7_size
      simp only [s1, Option.bind_some, Sum.elim_inl]
    · unfold fX8_size
      simp only [s2, pass_1, Option.bind_some, if_true]
theorem g_sum {a : cS} {m : mS} {ee : Nat} (h : Rel a m) (p : Int32) : Meets 1 ee (fX7_sum p a) (fX8_sum p m) := by
  rcases set_or p with ⟨i, hi, rfl⟩ | ⟨s1, s2⟩
  · obtain ⟨s1, s2⟩ := set_in hi
    refine Meets.ok (r := sumI (cB a i) 101) (a' := a) (m' := vI m 0 0) ?_ ?_ rfl (Rel_v0 h 0)
    · unfold fX7_sum
      simp only [s1, Option.bind_some, Sum.elim_inr, if_pos (lt8 hi), p_total]
    · unfold fX8_sum
      simp only [s2, pass_0, Option.bind_some, one_0, vin8 hi, cl8 hi, if_true, m_sumOf, mB_vI, h.2.2.1 i hi]
  · refine Meets.e1 (r := 0) h ?_ ?_
    · unfold fX7_sum
      simp only [s1, Option.bind_some, Sum.elim_inl]
    · unfold fX8_sum
      simp only [s2, pass_1, Option.bind_some, if_true]
theorem mI_eq {m m' : mS} (h : m'.2 = m.2) (k : Nat) : mI m' k = mI m k := by unfold mI; rw [h]
theorem mT_eq {m m' : mS} (h : m'.2 = m.2) : mT m' = mT m := by unfold mT; rw [h]
theorem jn2_self (x : BS) : jn 2 x x = fun _ => false := by
  rw [jn_2]
  funext k
  exact Bool.and_not_self _
theorem wf_0 : wfB (fun _ => false) := fun _ _ => rfl
theorem g_clear {a : cS} {m : mS} {ee : Nat} (h : Rel a m) (p : Int32) : Meets 1 ee (fX7_clear p a) (fX8_clear p m) := by
  rcases set_or p with ⟨i, hi, rfl⟩ | ⟨s1, s2⟩
  · obtain ⟨s1, s2⟩ := set_in hi
    obtain ⟨a', e1, e2, e3⟩ := p_empty i a
    obtain ⟨m', f1, f2, f3, f4⟩ := m_joins i i 2 i (Vm_vI h.2.1 0 0)
    rw [jn2_self, mB_vI] at f3
    refine Meets.ok (r := nI (sz (cB a i))) (a' := a') (m' := m') ?_ ?_ ?_ (Rel_row h hi wf_0 e2 e3 (fun r _ _ => by rw [f3]) (mI_eq f4 1) (mI_eq f4 3) (mT_eq (m := vI m 0 0) f4) f2)
    · unfold fX7_clear
      simp only [s1, Option.bind_some, Sum.elim_inr, if_pos (lt8 hi), p_count i a h.1, e1]
    · unfold fX8_clear
      simp only [s2, pass_0, Option.bind_some, one_0, vin8 hi, cl8 hi, if_true, m_sizeOf, mB_vI, h.2.2.1 i hi, f1]
    · exact mI_eq f4 0
  · refine Meets.e1 (r := 0) h ?_ ?_
    · unfold fX7_clear
      simp only [s1, Option.bind_some, Sum.elim_inl]
    · unfold fX8_clear
      simp only [s2, pass_1, Option.bind_some, if_true]
/-- two sets in range, or one that isn't -/
theorem g_becomes {a : cS} {m : mS} (h : Rel a m) (how : Int32) {i j : Nat} (hi : i < 8) (hj : j < 8) : ∃ r a' m', fX2_combine i how j a = some (r, a') ∧ fX8_becomes (nI i) (nI j) how m = some (r, m') ∧ mI m' 0 = 0 ∧ Rel a' m' := by
  obtain ⟨s1, s2⟩ := set_in hi
  obtain ⟨t1, t2⟩ := set_in hj
  obtain ⟨a', e1, e2, e3⟩ := p_combine i how j a
  obtain ⟨m1, f1, f2, f3, f4⟩ := m_copies i 8 (Vm_vI h.2.1 0 0)
  obtain ⟨m2, g1, g2, g3, g4⟩ := m_joins 8 j how i f2
  rw [mB_vI] at f3
  have x8 : mB m1 8 = cB a i := by rw [f3, zu_at, h.2.2.1 i hi]
  have xj : mB m1 j = cB a j := by rw [f3, zu_ne _ (by omega), h.2.2.1 j hj]
  rw [x8, xj] at g3
  have y8 : mB m2 8 = cB a i := by rw [g3, zu_ne _ (by omega), x8]
  have yi : mB m2 i = jn how (cB a i) (cB a j) := by rw [g3, zu_at]
  refine ⟨_, a', m2, e1, ?_, ?_, Rel_row h hi (jn_wf (h.1 i) (h.1 j)) e2 e3 (fun r hr h8 => ?_) ?_ ?_ ?_ g2⟩
  · unfold fX8_becomes
    simp only [s2, t2, pass_0, Option.bind_some, one_0, vin8 hi, cl8 hi, vin8 hj, cl8 hj, if_true, f1, g1, m_areSame _ _ g2, y8, yi, bi_casen]
  · exact (mI_eq g4 0).trans (mI_eq f4 0)
  · rw [g3]
    by_cases e : r = i
    · rw [e, zu_at, zu_at]
    · rw [zu_ne _ e, zu_ne _ e, f3, zu_ne _ h8]
  · exact (mI_eq g4 1).trans (mI_eq f4 1)
  · exact (mI_eq g4 3).trans (mI_eq f4 3)
  · exact (mT_eq g4).trans (mT_eq (m := vI m 0 0) f4)
theorem becomes_out {p q : Int32} (how : Int32) (m : mS) (h : (∀ m, fX8_isSet p m = 0) ∨ ((∀ m, fX8_isSet p m = 1) ∧ ∀ m, fX8_isSet q m = 0)) : fX8_becomes p q how m = some (0, vI m 0 1) := by
  unfold fX8_becomes
  rcases h with h | ⟨h, g⟩
  · simp only [h, pass_1, Option.bind_some, if_true]
  · simp only [h, g, pass_1, Option.bind_some, if_true, one_0]
theorem bind_id {α β : Type} (o : Option (α × β)) : (o.bind fun (r, s) => some (r, s)) = o := by
  cases o <;> rfl
theorem g_unite {a : cS} {m : mS} {ee : Nat} (h : Rel a m) (p q : Int32) : Meets 1 ee (fX7_unite p q a) (fX8_unite p q m) := by
  unfold fX8_unite
  rw [bind_id]
  rcases set_or p with ⟨i, hi, rfl⟩ | ⟨s1, s2⟩
  · obtain ⟨s1, s2⟩ := set_in hi
    rcases set_or q with ⟨j, hj, rfl⟩ | ⟨t1, t2⟩
    · obtain ⟨t1, t2⟩ := set_in hj
      obtain ⟨r, a', m', e1, e2, e3, e4⟩ := g_becomes h 0 hi hj
      refine Meets.ok ?_ e2 e3 e4
      unfold fX7_unite
      simp only [s1, t1, Option.bind_some, Sum.elim_inr, if_pos (lt8 hi), if_pos (lt8 hj), e1]
    · refine Meets.e1 (r := 0) h ?_ (becomes_out 0 m (Or.inr ⟨s2, t2⟩))
      unfold fX7_unite
      simp only [s1, t1, Option.bind_some, Sum.elim_inr, Sum.elim_inl, if_pos (lt8 hi)]
  · refine Meets.e1 (r := 0) h ?_ (becomes_out 0 m (Or.inl s2))
    unfold fX7_unite
    simp only [s1, Option.bind_some, Sum.elim_inl]
theorem g_meet {a : cS} {m : mS} {ee : Nat} (h : Rel a m) (p q : Int32) : Meets 1 ee (fX7_meet p q a) (fX8_meet p q m) := by
  unfold fX8_meet
  rw [bind_id]
  rcases set_or p with ⟨i, hi, rfl⟩ | ⟨s1, s2⟩
  · obtain ⟨s1, s2⟩ := set_in hi
    rcases set_or q with ⟨j, hj, rfl⟩ | ⟨t1, t2⟩
    · obtain ⟨t1, t2⟩ := set_in hj
      obtain ⟨r, a', m', e1, e2, e3, e4⟩ := g_becomes h 1 hi hj
      refine Meets.ok ?_ e2 e3 e4
      unfold fX7_meet
      simp only [s1, t1, Option.bind_some, Sum.elim_inr, if_pos (lt8 hi), if_pos (lt8 hj), e1]
    · refine Meets.e1 (r := 0) h ?_ (becomes_out 1 m (Or.inr ⟨s2, t2⟩))
      unfold fX7_meet
      simp only [s1, t1, Option.bind_some, Sum.elim_inr, Sum.elim_inl, if_pos (lt8 hi)]
  · refine Meets.e1 (r := 0) h ?_ (becomes_out 1 m (Or.inl s2))
    unfold fX7_meet
    simp only [s1, Option.bind_some, Sum.elim_inl]
theorem g_without {a : cS} {m : mS} {ee : Nat} (h : Rel a m) (p q : Int32) : Meets 1 ee (fX7_without p q a) (fX8_without p q m) := by
  unfold fX8_without
  rw [bind_id]
  rcases set_or p with ⟨i, hi, rfl⟩ | ⟨s1, s2⟩
  · obtain ⟨s1, s2⟩ := set_in hi
    rcases set_or q with ⟨j, hj, rfl⟩ | ⟨t1, t2⟩
    · obtain ⟨t1, t2⟩ := set_in hj
      obtain ⟨r, a', m', e1, e2, e3, e4⟩ := g_becomes h 2 hi hj
      refine Meets.ok ?_ e2 e3 e4
      unfold fX7_without
      simp only [s1, t1, Option.bind_some, Sum.elim_inr, if_pos (lt8 hi), if_pos (lt8 hj), e1]
    · refine Meets.e1 (r := 0) h ?_ (becomes_out 2 m (Or.inr ⟨s2, t2⟩))
      unfold fX7_without
      simp only [s1, t1, Option.bind_some, Sum.elim_inr, Sum.elim_inl, if_pos (lt8 hi)]
  · refine Meets.e1 (r := 0) h ?_ (becomes_out 2 m (Or.inl s2))
    unfold fX7_without
    simp only [s1, Option.bind_some, Sum.elim_inl]
theorem g_copy {a : cS} {m : mS} {ee : Nat} (h : Rel a m) (p q : Int32) : Meets 1 ee (fX7_copy p q a) (fX8_copy p q m) := by
  rcases set_or p with ⟨i, hi, rfl⟩ | ⟨s1, s2⟩
  · obtain ⟨s1, s2⟩ := set_in hi
    rcases set_or q with ⟨j, hj, rfl⟩ | ⟨t1, t2⟩
    · obtain ⟨t1, t2⟩ := set_in hj
      obtain ⟨a', e1, e2, e3⟩ := p_become i j a
      obtain ⟨m', f1, f2, f3, f4⟩ := m_copies j i (Vm_vI h.2.1 0 0)
      rw [mB_vI, ← h.2.2.1 j hj] at f3
      have W := Wf_up h.1 (h.1 j) e2
      refine Meets.ok (r := nI (sz (cB a j))) (a' := a') (m' := m') ?_ ?_ (mI_eq f4 0) (Rel_row h hi (h.1 j) e2 e3 (fun r _ _ => by rw [f3]) (mI_eq f4 1) (mI_eq f4 3) (mT_eq (m := vI m 0 0) f4) f2)
      · unfold fX7_copy
        simp only [s1, t1, Option.bind_some, Sum.elim_inr, if_pos (lt8 hi), if_pos (lt8 hj), e1, p_count i a' W]
        rw [e2, zu_at]
      · unfold fX8_copy
        simp only [s2, t2, pass_0, Option.bind_some, one_0, vin8 hi, cl8 hi, vin8 hj, cl8 hj, if_true, f1, m_sizeOf]
        rw [f3, zu_at]
    · refine Meets.e1 (r := 0) h ?_ ?_
      · unfold fX7_copy
        simp only [s1, t1, Option.bind_some, Sum.elim_inr, Sum.elim_inl, if_pos (lt8 hi)]
      · unfold fX8_copy
        simp only [s2, t2, pass_1, Option.bind_some, if_true, one_0]
  · refine Meets.e1 (r := 0) h ?_ ?_
    · unfold fX7_copy
      simp only [s1, Option.bind_some, Sum.elim_inl]
    · unfold fX8_copy
      simp only [s2, pass_1, Option.bind_some, if_true]
theorem g_isWithin {a : cS} {m : mS} {ee : Nat} (h : Rel a m) (p q : Int32) : Meets 1 ee (fX7_isWithin p q a) (fX8_isWithin p q m) := by
  rcases set_or p with ⟨i, hi, rfl⟩ | ⟨s1, s2⟩
  · obtain ⟨s1, s2⟩ := set_in hi
    rcases set_or q with ⟨j, hj, rfl⟩ | ⟨t1, t2⟩
    · obtain ⟨t1, t2⟩ := set_in hj
      refine Meets.ok (r := bi (inn (cB a i) (cB a j))) (a' := a) (m' := vI m 0 0) ?_ ?_ rfl (Rel_v0 h 0)
      · unfold fX7_isWithin
        simp only [s1, t1, Option.bind_some, Sum.elim_inr, if_pos (lt8 hi), if_pos (lt8 hj), p_holdsAll]
      · unfold fX8_isWithin
        simp only [s2, t2, pass_0, Option.bind_some, one_0, vin8 hi, cl8 hi, vin8 hj, cl8 hj, if_true, m_lies, mB_vI, bi_case, h.2.2.1 i hi, h.2.2.1 j hj]
    · refine Meets.e1 (r := 0) h ?_ ?_
      · unfold fX7_isWithin
        simp only [s1, t1, Option.bind_some, Sum.elim_inr, Sum.elim_inl, if_pos (lt8 hi)]
      · unfold fX8_isWithin
        simp only [s2, t2, pass_1, Option.bind_some, if_true, one_0]
  · refine Meets.e1 (r := 0) h ?_ ?_
    · unfold fX7_isWithin
      simp only [s1, Option.bind_some, Sum.elim_inl]
    · unfold fX8_isWithin
      simp only [s2, pass_1, Option.bind_some, if_true]
theorem g_isSame {a : cS} {m : mS} {ee : Nat} (h : Rel a m) (p q : Int32) : Meets 1 ee (fX7_isSame p q a) (fX8_isSame p q m) := by
  rcases set_or p with ⟨i, hi, rfl⟩ | ⟨s1, s2⟩
  · obtain ⟨s1, s2⟩ := set_in hi
    rcases set_or q with ⟨j, hj, rfl⟩ | ⟨t1, t2⟩
    · obtain ⟨t1, t2⟩ := set_in hj
      refine Meets.ok (r := bi (same (cB a i) (cB a j))) (a' := a) (m' := vI m 0 0) ?_ ?_ rfl (Rel_v0 h 0)
      · unfold fX7_isSame
        simp only [s1, t1, Option.bind_some, Sum.elim_inr, if_pos (lt8 hi), if_pos (lt8 hj), p_sameAs]
      · unfold fX8_isSame
        simp only [s2, t2, pass_0, Option.bind_some, one_0, vin8 hi, cl8 hi, vin8 hj, cl8 hj, if_true, m_areSame _ _ (Vm_vI h.2.1 0 0), mB_vI, bi_case, h.2.2.1 i hi, h.2.2.1 j hj]
    · refine Meets.e1 (r := 0) h ?_ ?_
      · unfold fX7_isSame
        simp only [s1, t1, Option.bind_some, Sum.elim_inr, Sum.elim_inl, if_pos (lt8 hi)]
      · unfold fX8_isSame
        simp only [s2, t2, pass_1, Option.bind_some, if_true, one_0]
  · refine Meets.e1 (r := 0) h ?_ ?_
    · unfold fX7_isSame
      simp only [s1, Option.bind_some, Sum.elim_inl]
    · unfold fX8_isSame
      simp only [s2, pass_1, Option.bind_some, if_true]
theorem sz_0 {x : BS} (hx : wfB x) : sz x = 0 ↔ ∀ k, x k = false := by
  unfold sz
  rw [fb_ct_zero]
  constructor
  · intro h k
    by_cases g : k < 102
    · exact h k g
    · exact hx k (by omega)
  · intro h k _
    exact h k
theorem nI_eq0 {n : Nat} (h : n < 2 ^ 31) : nI n = 0 ↔ n = 0 := nI_eq (b := 0) h (by decide)
theorem g_isApart {a : cS} {m : mS} {ee : Nat} (h : Rel a m) (p q : Int32) : Meets 1 ee (fX7_isApart p q a) (fX8_isApart p q m) := by
  rcases set_or p with ⟨i, hi, rfl⟩ | ⟨s1, s2⟩
  · obtain ⟨s1, s2⟩ := set_in hi
    rcases set_or q with ⟨j, hj, rfl⟩ | ⟨t1, t2⟩
    · obtain ⟨t1, t2⟩ := set_in hj
      obtain ⟨m', f1, f2, f3, f4⟩ := m_joins i j 1 8 (Vm_vI h.2.1 0 0)
      rw [mB_vI, ← h.2.2.1 i hi, ← h.2.2.1 j hj] at f3
      have k : nI (sz (mB m' 8)) = 0 ↔ apart (cB a i) (cB a j) = true := by
        have := sz_le (mB m' 8)
        rw [nI_eq0 (by omega), sz_0 (mB_wf m' 8), f3, zu_at, jn_1]
        unfold apart
        rw [pd_iff]
        exact forall_congr' fun k => by show (cB a i k && cB a j k) = false ↔ _; cases cB a i k <;> cases cB a j k <;> decide
      refine Meets.ok (r := bi (apart (cB a i) (cB a j))) (a' := a) (m' := m') ?_ ?_ (mI_eq f4 0) (Rel_keep h (aeq_refl a) (meq_trans (meq_v0 m 0) (meq_up (Or.inr rfl) f3 f4)) h.1 f2)
      · unfold fX7_isApart
        simp only [s1, t1, Option.bind_some, Sum.elim_inr, if_pos (lt8 hi), if_pos (lt8 hj), p_sharesNone]
      · unfold fX8_isApart
        simp only [s2, t2, pass_0, Option.bind_some, one_0, vin8 hi, cl8 hi, vin8 hj, cl8 hj, if_true, f1, m_sizeOf, if_bool k]
        cases apart (cB a i) (cB a j) <;> rfl
    · refine Meets.e1 (r := 0) h ?_ ?_
      · unfold fX7_isApart
        simp only [s1, t1, Option.bind_some, Sum.elim_inr, Sum.elim_inl, if_pos (lt8 hi)]
      · unfold fX8_isApart
        simp only [s2, t2, pass_1, Option.bind_some, if_true, one_0]
  · refine Meets.e1 (r := 0) h ?_ ?_
    · unfold fX7_isApart
      simp only [s1, Option.bind_some, Sum.elim_inl]
    · unfold fX8_isApart
      simp only [s2, pass_1, Option.bind_some, if_true]
/-! ===== walks through one set, and votes ===== -/
theorem m_placeAt_L (r : Nat) (m : mS) {P : Nat} (hP : P < 2 ^ 31) : ∀ (d fuel k : Nat), k + d = 102 → d < fuel → fb_ct (mB m r) k ≤ P → (∃ i, i < 102 ∧ mB m r i = true ∧ fb_ct (mB m r) i = P ∧ fX8_placeAt_L4 r fuel (nI (P - fb_ct (mB m r) k)) (nI k) m = some (nI i, m)) ∨ (sz (mB m r) ≤ P ∧ fX8_placeAt_L4 r fuel (nI (P - fb_ct (mB m r) k)) (nI k) m = some (nI 102, m)) := by
  intro d
  induction d with
  | zero =>
    intro fuel k h hf hk
    obtain ⟨f, rfl⟩ : ∃ f, fuel = f + 1 := ⟨fuel - 1, by omega⟩
    have : k = 102 := by omega
    subst this
    right
    rw [fX8_placeAt_L4, if_pos (show (102 : Int32) ≤ nI 102 from by decide)]
    exact ⟨hk, rfl⟩
  | succ d ih =>
    intro fuel k h hf hk
    obtain ⟨f, rfl⟩ : ∃ f, fuel = f + 1 := ⟨fuel - 1, by omega⟩
    have hk2 : k < 102 := by omega
    have le := fb_ct_le (mB m r) k
    have ih := ih f (k + 1) (by omega) (by omega)
    rw [ct_succ] at ih
    rw [fX8_placeAt_L4, if_neg (ge_102 hk2)]
    simp only [vin102 hk2, cl102 hk2, if_true, nI_1 k, if_boolf (mB_0 hk2), Int32.sub_zero]
    cases c : mB m r k
    · rw [c] at ih
      simp only [Bool.false_eq_true, if_false] at ih ⊢
      exact ih hk
    · rw [c] at ih
      simp only [if_true] at ih ⊢
      by_cases q : fb_ct (mB m r) k = P
      · left
        refine ⟨k, hk2, c, q, ?_⟩
        rw [if_pos (by rw [q, Nat.sub_self]; decide)]
      · rw [if_neg (nI_nle (by omega) (by omega))]
        have e : nI (P - fb_ct (mB m r) k) - 1 = nI (P - (fb_ct (mB m r) k + 1)) := by
          rw [show P - fb_ct (mB m r) k = (P - (fb_ct (mB m r) k + 1)) + 1 from by omega, nI_pred]
        rw [e]
        exact ih (by omega)
theorem memOf_eq : ∀ k, k < 102 → (if nI k = 0 then (100 : Int32) else nI k - 51) = (if nI k = 0 then 100 else nI k - 50 - 1) := by decide +kernel
theorem ct_kth_lt {x : BS} {i : Nat} (h : i < 102) (hx : x i = true) : fb_ct x i < sz x := by
  have a : fb_ct x (i + 1) ≤ sz x := fb_ct_mono x (by omega)
  rw [ct_succ, if_pos hx] at a
  omega
theorem g_memberAt {a : cS} {m : mS} (h : Rel a m) (p q : Int32) : Meets 1 3 (fX7_memberAt p q a) (fX8_memberAt p q m) := by
  rcases set_or p with ⟨i, hi, rfl⟩ | ⟨s1, s2⟩
  · obtain ⟨s1, s2⟩ := set_in hi
    have hx := h.2.2.1 i hi
    rcases p_indexAt i a q with ⟨k, hk, h1, h2, h3⟩ | ⟨h1, h2⟩
    · have lt := ct_kth_lt hk h1
      have sl := sz_le (cB a i)
      subst h2
      refine Meets.ok (r := if nI k = 0 then 100 else nI k - 51) (a' := a) (m' := vI m 0 0) ?_ ?_ rfl (Rel_v0 h 0)
      · unfold fX7_memberAt
        simp only [s1, Option.bind_some, Sum.elim_inr, if_pos (lt8 hi), h3, if_neg (nI_m1 (show k < 2 ^ 31 by omega))]
        rfl
      · unfold fX8_memberAt
        simp only [s2, one_0, if_neg (nI_pos (show fb_ct (cB a i) k < 2 ^ 31 by omega)), vin8 hi, cl8 hi, if_true, pass_0]
        have := m_placeAt_L i m (P := fb_ct (cB a i) k) (by omega) 102 1100 0 rfl (by decide) (Nat.zero_le _)
        rw [← hx] at this
        rcases this with ⟨j, g1, g2, g3, g4⟩ | ⟨g1, g2⟩
        · have e := fb_ct_kth_one g2 h1 g3
          subst e
          have g4 : fX8_placeAt i (nI (fb_ct (cB a i) j)) m = some (nI j, m) := g4
          simp only [g4, Option.bind_some, if_neg (ge_102 hk), one_0]
          rw [memOf_eq j hk]
          rfl
        · omega
    · refine Meets.e2 (r := 0) h ?_ ?_
      · unfold fX7_memberAt
        simp only [s1, Option.bind_some, Sum.elim_inr, if_pos (lt8 hi), h2, if_true]
      · unfold fX8_memberAt
        rcases h1 with h1 | ⟨P, hP, rfl, h1⟩
        · simp only [s2, one_0, if_pos h1, pass_2, Option.bind_some, if_true]
        · simp only [s2, one_0, if_neg (nI_pos hP), vin8 hi, cl8 hi, if_true]
          have := m_placeAt_L i m (P := P) hP 102 1100 0 rfl (by decide) (Nat.zero_le _)
          rw [← hx] at this
          rcases this with ⟨j, g1, g2, g3, g4⟩ | ⟨g1, g4⟩
          · have := ct_kth_lt g1 g2
            omega
          · have g4 : fX8_placeAt i (nI P) m = some (nI 102, m) := g4
            simp only [g4, Option.bind_some, if_pos (show (102 : Int32) ≤ nI 102 from by decide), pass_2, if_true]
  · refine Meets.e1 (r := 0) h ?_ ?_
    · unfold fX7_memberAt
      simp only [s1, Option.bind_some, Sum.elim_inl]
    · unfold fX8_memberAt
      simp only [s2, pass_1, Option.bind_some, if_true]
theorem m_least_L (i : Nat) (hi : i < 8) (k0 : Int32 → mS → Option (Int32 × mS)) (m : mS) : ∀ (d fuel k : Nat), k + d = 102 → 1 ≤ k → d < fuel → (∀ j, 1 ≤ j → j < k → mB m i j = false) → (∃ l, 1 ≤ l ∧ l < 102 ∧ mB m i l = true ∧ (∀ j, 1 ≤ j → j < l → mB m i j = false) ∧ fX8_least_L7 (nI i) 1 k0 fuel (nI k) m = k0 (nI l) m) ∨ ((∀ j, 1 ≤ j → j < 102 → mB m i j = false) ∧ fX8_least_L7 (nI i) 1 k0 fuel (nI k) m = k0 (nI 102) m) := by
  intro d
  induction d with
  | zero =>
    intro fuel k h h1 hf hk
    obtain ⟨f, rfl⟩ : ∃ f, fuel = f + 1 := ⟨fuel - 1, by omega⟩
    have : k = 102 := by omega
    subst this
    right
    rw [fX8_least_L7, if_neg (by decide), if_pos (show (102 : Int32) ≤ nI 102 from by decide)]
    exact ⟨hk, rfl⟩
  | succ d ih =>
    intro fuel k h h1 hf hk
    obtain ⟨f, rfl⟩ : ∃ f, fuel = f + 1 := ⟨fuel - 1, by omega⟩
    have hk2 : k < 102 := by omega
    rw [fX8_least_L7, if_neg (by decide), if_neg (ge_102 hk2), if_pos (vin8 hi), if_pos (vin102 hk2), cl8 hi, cl102 hk2, if_boolf (mB_0 hk2), nI_1]
    cases c : mB m i k
    · rw [if_neg (fun z => Bool.noConfusion z)]
      exact ih f (k + 1) (by omega) (by omega) (by omega) (fun j h1 h2 => if e : j = k then e ▸ c else hk j h1 (by omega))
    · rw [if_pos rfl]
      exact Or.inl ⟨k, h1, hk2, c, hk, rfl⟩
theorem least_eq : ∀ k, k < 102 → 1 ≤ k → (if nI k = 0 then (100 : Int32) else nI k - 50 - 1) = nI k - 51 := by decide +kernel
theorem g_least {a : cS} {m : mS} (h : Rel a m) (p : Int32) : Meets 1 3 (fX7_least p a) (fX8_least p m) := by
  rcases set_or p with ⟨i, hi, rfl⟩ | ⟨s1, s2⟩
  · obtain ⟨s1, s2⟩ := set_in hi
    have hx := h.2.2.1 i hi
    unfold fX8_least
    rw [s2]
    rcases p_firstNumber i a with ⟨k, h1, h2, h3, h4, h5⟩ | ⟨h1, h2⟩
    · rcases m_least_L i hi (fun y3_4 s4 => if 102 ≤ y3_4 then ((fX8_passes (fX8_isSet (nI i) m) (0 : Int32) s4).bind (fun (r5, s5) => if r5 = 0 then (some ((0, s5))) else (some ((fX8_memberOf y3_4 s5, s5))))) else ((fX8_passes (fX8_isSet (nI i) m) (1 : Int32) s4).bind (fun (r7, s7) => if r7 = 0 then (some ((0, s7))) else (some ((fX8_memberOf y3_4 s7, s7)))))) m 101 1100 1 rfl (by decide) (by decide) (fun j h1 h2 => by omega) with ⟨l, g1, g2, g3, g4, g5⟩ | ⟨g1, g2⟩
      · rw [← hx] at g3 g4
        have e : l = k := by
          rcases Nat.lt_trichotomy l k with q | q | q
          · rw [h4 l g1 q] at g3
            exact Bool.noConfusion g3
          · exact q
          · rw [g4 k h1 q] at h3
            exact Bool.noConfusion h3
        subst e
        rw [s2] at g5
        refine Meets.ok (r := nI l - 51) (a' := a) (m' := vI m 0 0) ?_ (g5.trans ?_) rfl (Rel_v0 h 0)
        · unfold fX7_least fX7_numberOf
          simp only [s1, Option.bind_some, Sum.elim_inr, if_pos (lt8 hi), h5, if_neg (nI_m1 (show l < 2 ^ 31 by omega))]
        · simp only [if_neg (ge_102 g2), pass_0, Option.bind_some, one_0]
          unfold fX8_memberOf
          rw [least_eq l g2 g1]
      · rw [← hx] at g1
        rw [g1 k h1 h2] at h3
        exact Bool.noConfusion h3
    · rcases m_least_L i hi (fun y3_4 s4 => if 102 ≤ y3_4 then ((fX8_passes (fX8_isSet (nI i) m) (0 : Int32) s4).bind (fun (r5, s5) => if r5 = 0 then (some ((0, s5))) else (some ((fX8_memberOf y3_4 s5, s5))))) else ((fX8_passes (fX8_isSet (nI i) m) (1 : Int32) s4).bind (fun (r7, s7) => if r7 = 0 then (some ((0, s7))) else (some ((fX8_memberOf y3_4 s7, s7)))))) m 101 1100 1 rfl (by decide) (by decide) (fun j h1 h2 => by omega) with ⟨l, g1, g2, g3, g4, g5⟩ | ⟨g1, g5⟩
      · rw [← hx] at g3
        rw [h1 l g1 g2] at g3
        exact Bool.noConfusion g3
      · rw [s2] at g5
        refine Meets.e2 (r := 0) h ?_ (g5.trans ?_)
        · unfold fX7_least fX7_numberOf
          simp only [s1, Option.bind_some, Sum.elim_inr, Sum.elim_inl, if_pos (lt8 hi), h2, if_true]
        · simp only [if_pos (show (102 : Int32) ≤ nI 102 from by decide), pass_2, Option.bind_some, if_true]
  · refine Meets.e1 (r := 0) h ?_ ?_
    · unfold fX7_least
      simp only [s1, Option.bind_some, Sum.elim_inl]
    · unfold fX8_least
      rw [s2, fX8_least_L7]
      simp only [if_true, if_neg (show ¬ (102 : Int32) ≤ 1 from by decide), pass_1, Option.bind_some]
theorem m_greatest_L (i : Nat) (hi : i < 8) (k0 : Int32 → mS → Option (Int32 × mS)) (m : mS) : ∀ (k fuel : Nat), k < fuel → k < 102 → (∀ j, k < j → j < 102 → mB m i j = false) → (∃ l, 1 ≤ l ∧ l < 102 ∧ mB m i l = true ∧ (∀ j, l < j → j < 102 → mB m i j = false) ∧ fX8_greatest_L8 (nI i) 1 k0 fuel (nI k) m = k0 (nI l) m) ∨ ((∀ j, 1 ≤ j → j < 102 → mB m i j = false) ∧ fX8_greatest_L8 (nI i) 1 k0 fuel (nI k) m = k0 (nI 0) m) := by
  intro k
  induction k with
  | zero =>
    intro fuel hf h hk
    obtain ⟨f, rfl⟩ : ∃ f, fuel = f + 1 := ⟨fuel - 1, by omega⟩
    right
    rw [fX8_greatest_L8, if_neg (by decide), if_pos (show nI 0 ≤ 0 from by decide)]
    exact ⟨fun j h1 h2 => hk j (by omega) h2, rfl⟩
  | succ k ih =>
    intro fuel hf h hk
    obtain ⟨f, rfl⟩ : ∃ f, fuel = f + 1 := ⟨fuel - 1, by omega⟩
    rw [fX8_greatest_L8, if_neg (by decide), if_neg (nI_nle (by omega) (by omega)), if_pos (vin8 hi), if_pos (vin102 h), cl8 hi, cl102 h, if_boolf (mB_0 h), pk_m1]
    cases c : mB m i (k + 1)
    · rw [if_neg (fun z => Bool.noConfusion z)]
      exact ih f (by omega) (by omega) (fun j h1 h2 => if e : j = k + 1 then e ▸ c else hk j (by omega) h2)
    · rw [if_pos rfl]
      exact Or.inl ⟨k + 1, by omega, h, c, hk, rfl⟩
theorem g_greatest {a : cS} {m : mS} (h : Rel a m) (p : Int32) : Meets 1 3 (fX7_greatest p a) (fX8_greatest p m) := by
  rcases set_or p with ⟨i, hi, rfl⟩ | ⟨s1, s2⟩
  · obtain ⟨s1, s2⟩ := set_in hi
    have hx := h.2.2.1 i hi
    unfold fX8_greatest
    rw [s2]
    rcases m_greatest_L i hi (fun y3_4 s4 => if y3_4 ≤ 0 then ((fX8_passes (1 : Int32) (0 : Int32) s4).bind (fun (r5, s5) => if r5 = 0 then (some ((0, s5))) else (some ((fX8_memberOf y3_4 s5, s5))))) else ((fX8_passes (1 : Int32) (1 : Int32) s4).bind (fun (r7, s7) => if r7 = 0 then (some ((0, s7))) else (some ((fX8_memberOf y3_4 s7, s7)))))) m 101 1100 (by decide) (by decide) (fun j h1 h2 => by omega) with ⟨l, g1, g2, g3, g4, g5⟩ | ⟨g1, g5⟩
    · rw [← hx] at g3 g4
      rcases p_lastNumber i a with ⟨k, h1, h2, h3, h4, h5⟩ | ⟨h1, h2⟩
      · have e : l = k := by
          rcases Nat.lt_trichotomy l k with q | q | q
          · rw [g4 k q h2] at h3
            exact Bool.noConfusion h3
          · exact q
          · rw [h4 l q g2] at g3
            exact Bool.noConfusion g3
        subst e
        refine Meets.ok (r := nI l - 51) (a' := a) (m' := vI m 0 0) ?_ (g5.trans ?_) rfl (Rel_v0 h 0)
        · unfold fX7_greatest fX7_numberOf
          simp only [s1, Option.bind_some, Sum.elim_inr, if_pos (lt8 hi), h5, if_neg (nI_m1 (show l < 2 ^ 31 by omega))]
        · simp only [if_neg (nI_nle (show 0 < l from g1) (show l < 2 ^ 31 by omega)), pass_0, Option.bind_some, one_0]
          unfold fX8_memberOf
          rw [least_eq l g2 g1]
      · rw [h1 l g1 g2] at g3
        exact Bool.noConfusion g3
    · rw [← hx] at g1
      rcases p_lastNumber i a with ⟨k, h1, h2, h3, h4, h5⟩ | ⟨h1, h2⟩
      · rw [g1 k h1 h2] at h3
        exact Bool.noConfusion h3
      · refine Meets.e2 (r := 0) h ?_ (g5.trans ?_)
        · unfold fX7_greatest fX7_numberOf
          simp only [s1, Option.bind_some, Sum.elim_inr, Sum.elim_inl, if_pos (lt8 hi), h2, if_true]
        · simp only [if_pos (show nI 0 ≤ 0 from by decide), pass_2, Option.bind_some, if_true]
  · refine Meets.e1 (r := 0) h ?_ ?_
    · unfold fX7_greatest
      simp only [s1, Option.bind_some, Sum.elim_inl]
    · unfold fX8_greatest
      rw [s2, fX8_greatest_L8]
      simp only [if_true, if_neg (show ¬ (101 : Int32) ≤ 0 from by decide), pass_1, Option.bind_some]
/-! votes -/
def vt (f : Nat → BS) (k : Nat) : Nat := fb_ct (fun i => f i k) 8
theorem vt_le (f : Nat → BS) (k : Nat) : vt f k ≤ 8 := fb_ct_le _ 8
theorem ge_8 {k : Nat} (h : k < 8) : ¬ (8 : Int32) ≤ nI k := nI_ge h (by decide)
theorem p_votes_L (a : cS) {k : Nat} (hk : k < 102) : ∀ (d fuel j : Nat), j + d = 8 → d < fuel → fX7_votesFor_L4 (nI k) fuel (nI (fb_ct (fun i => cB a i k) j)) (nI j) a = some (nI (vt (cB a) k), a) := by
  intro d
  induction d with
  | zero =>
    intro fuel j h hf
    obtain ⟨f, rfl⟩ : ∃ f, fuel = f + 1 := ⟨fuel - 1, by omega⟩
    have : j = 8 := by omega
    subst this
    rw [fX7_votesFor_L4, if_pos (show (8 : Int32) ≤ nI 8 from by decide)]
    rfl
  | succ d ih =>
    intro fuel j h hf
    obtain ⟨f, rfl⟩ : ∃ f, fuel = f + 1 := ⟨fuel - 1, by omega⟩
    have hj : j < 8 := by omega
    rw [fX7_votesFor_L4, if_neg (ge_8 hj), if_pos (vin8 hj), cl8 hj, p_holds j a hk, if_bi, nI_1, nI_1]
    have := ih f (j + 1) (by omega) (by omega)
    rw [ct_succ] at this
    cases c : cB a j k
    · simp only [c, Bool.false_eq_true, if_false] at this ⊢
      exact this
    · simp only [c, if_true] at this ⊢
      exact this
theorem p_votes (a : cS) {k : Nat} (hk : k < 102) : fX7_votesFor (nI k) a = some (nI (vt (cB a) k), a) := p_votes_L a hk 8 1100 0 rfl (by decide)
theorem m_votes_L (m : mS) {k : Nat} (hk : k < 102) : ∀ (d fuel j : Nat), j + d = 8 → d < fuel → fX8_votes_L4 (nI k) fuel (nI (fb_ct (fun i => mB m i k) j)) (nI j) m = some (nI (vt (mB m) k), m) := by
  intro d
  induction d with
  | zero =>
    intro fuel j h hf
    obtain ⟨f, rfl⟩ : ∃ f, fuel = f + 1 := ⟨fuel - 1, by omega⟩
    have : j = 8 := by omega
    subst this
    rw [fX8_votes_L4, if_pos (show (8 : Int32) ≤ nI 8 from by decide)]
    rfl
  | succ d ih =>
    intro fuel j h hf
    obtain ⟨f, rfl⟩ : ∃ f, fuel = f + 1 := ⟨fuel - 1, by omega⟩
    have hj : j < 8 := by omega
    rw [fX8_votes_L4, if_neg (ge_8 hj), if_pos (vin8 hj), if_pos (vin102 hk), cl8 hj, cl102 hk, if_boolf (mB_0 hk), nI_1, nI_1, Int32.add_zero]
    have := ih f (j + 1) (by omega) (by omega)
    rw [ct_succ] at this
    cases c : mB m j k
    · simp only [c, Bool.false_eq_true, if_false] at this ⊢
      exact this
    · simp only [c, if_true] at this ⊢
      exact this
theorem m_votes (m : mS) {k : Nat} (hk : k < 102) : fX8_votes (nI k) m = some (nI (vt (mB m) k), m) := m_votes_L m hk 8 1100 0 rfl (by decide)
theorem vt_eq {a : cS} {m : mS} (h : Rel a m) (k : Nat) : vt (mB m) k = vt (cB a) k := fb_ct_cong fun i hi => by
  show mB m i k = cB a i k
  rw [h.2.2.1 i hi]
theorem g_vote {a : cS} {m : mS} {ee : Nat} (h : Rel a m) (q : Int32) : Meets 2 ee (fX7_vote q a) (fX8_vote q m) := by
  rcases mem_or q with ⟨k, hk, q1, q2, q3⟩ | ⟨q1, q2⟩
  · refine Meets.ok (r := nI (vt (cB a) k)) (a' := a) (m' := vI m 0 0) ?_ ?_ rfl (Rel_v0 h 0)
    · unfold fX7_vote
      simp only [q1, Option.bind_some, Sum.elim_inr, p_votes a hk]
    · unfold fX8_vote
      simp only [q2, q3, pass_0, Option.bind_some, one_0, m_votes _ hk, mB_vI, vt_eq h]
  · refine Meets.e1 (r := 0) h ?_ ?_
    · unfold fX7_vote
      simp only [q1, Option.bind_some, Sum.elim_inl]
    · unfold fX8_vote
      simp only [q2, pass_1, Option.bind_some, if_true]
