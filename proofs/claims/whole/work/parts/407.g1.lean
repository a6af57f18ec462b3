/-! ===== calls on one set, on two sets ===== -/
theorem bi_case {α : Type} (b : Bool) (s : α) : (if bi b = 0 then some ((0 : Int32), s) else some (1, s)) = some (bi b, s) := by cases b <;> rfl
theorem bi_casen {α : Type} (b : Bool) (s : α) : (if bi b = 0 then some ((1 : Int32), s) else some (0, s)) = some (bi (!b), s) := by cases b <;> rfl
theorem vin8 {i : Nat} (h : i < 8) : vin (nI i) 8 = true := vinI h (by decide)
theorem cl8 {i : Nat} (h : i < 8) : (nI i).toNatClampNeg = i := nI_clamp (by omega)
theorem vin102 {i : Nat} (h : i < 102) : vin (nI i) 102 = true := vinI h (by decide)
theorem cl102 {i : Nat} (h : i < 102) : (nI i).toNatClampNeg = i := nI_clamp (by omega)
theorem mB_set (m : mS) {i k : Nat} (hk : k < 102) (v : Bool) : mB (vR m i k (bi v)) = va_up (mB m) i (va_up (mB m i) k v) := by
  funext r j
  rw [mB_vR m hk]
  by_cases h : r = i
  · subst h
    rw [zu_at]
    by_cases g : j = k
    · subst g
      rw [zu_at, if_pos ⟨rfl, rfl⟩]
    · rw [zu_ne _ g, if_neg (fun z => g z.2)]
  · rw [zu_ne _ h, if_neg (fun z => h z.1)]
theorem m_puts {i k : Nat} (hi : i < 8) (hk : k < 102) {p : Int32} (hp : ∀ m, fX8_placeOfMember p m = nI k) {w : Int32} (v : Bool) (hw : w = bi v) {m : mS} (V : Vm m) : fX8_puts (nI i) p w m = some (bi (mB m i k ^^ v), vR m i k (bi v)) := by
  subst hw
  unfold fX8_puts
  simp only [hp, vin8 hi, vin102 hk, cl8 hi, cl102 hk, if_true, nb_bi]
  rw [mR_bi V hk, if_bool (b := !(mB m i k ^^ v)) (by rw [bi_inj]; cases mB m i k <;> cases v <;> decide)]
  cases mB m i k <;> cases v <;> rfl
theorem wf_set {x : BS} (hx : wfB x) {k : Nat} (hk : k < 102) (v : Bool) : wfB (va_up x k v) := fun j hj => by
  rw [zu_ne _ (by omega)]
  exact hx j hj
theorem Rel_set {a a' : cS} {m : mS} (h : Rel a m) {i k : Nat} (hi : i < 8) (hk : k < 102) (v : Bool) (e2 : cB a' = va_up (cB a) i (va_up (cB a i) k v)) (e3 : a'.2.2 = a.2.2) : Rel a' (vR m i k (bi v)) :=
  Rel_row h hi (wf_set (h.1 i) hk v) e2 e3 (fun r _ _ => by rw [mB_set m hk v, h.2.2.1 i hi]) rfl rfl rfl (Vm_vR h.2.1 _ _ _)
theorem g_add {a : cS} {m : mS} (h : Rel a m) (p q : Int32) : Meets 1 2 (fX7_add p q a) (fX8_add p q m) := by
  rcases set_or p with ⟨i, hi, rfl⟩ | ⟨s1, s2⟩
  · obtain ⟨s1, s2⟩ := set_in hi
    rcases mem_or q with ⟨k, hk, q1, q2, q3⟩ | ⟨q1, q2⟩
    · obtain ⟨a', e1, e2, e3⟩ := p_put i a hk
      have e := m_puts hi hk q3 (w := 1) true rfl (Vm_vI h.2.1 0 0)
      refine Meets.ok (r := bi (!cB a i k)) (a' := a') (m' := vR (vI m 0 0) i k (bi true)) ?_ ?_ rfl (Rel_set (Rel_v0 h 0) hi hk true e2 e3)
      · unfold fX7_add
        simp only [s1, q1, e1, Option.bind_some, Sum.elim_inr, if_pos (lt8 hi)]
      · unfold fX8_add
        simp only [s2, q2, pass_0, Option.bind_some, e, bi_case]
        rw [if_neg (by decide), mB_vI, h.2.2.1 i hi, Bool.xor_true]
    · refine Meets.e2 (r := 0) h ?_ ?_
      · unfold fX7_add
        simp only [s1, q1, Option.bind_some, Sum.elim_inr, Sum.elim_inl, if_pos (lt8 hi)]
      · unfold fX8_add
        simp only [s2, q2, pass_2, Option.bind_some, if_true]
  · refine Meets.e1 (r := 0) h ?_ ?_
    · unfold fX7_add
      simp only [s1, Option.bind_some, Sum.elim_inl]
    · unfold fX8_add
      simp only [s2, pass_1, Option.bind_some, if_true]
theorem g_remove {a : cS} {m : mS} (h : Rel a m) (p q : Int32) : Meets 1 2 (fX7_remove p q a) (fX8_remove p q m) := by
  rcases set_or p with ⟨i, hi, rfl⟩ | ⟨s1, s2⟩
  · obtain ⟨s1, s2⟩ := set_in hi
    rcases mem_or q with ⟨k, hk, q1, q2, q3⟩ | ⟨q1, q2⟩
    · obtain ⟨a', e1, e2, e3⟩ := p_takeOut i a hk
      have e := m_puts hi hk q3 (w := 0) false rfl (Vm_vI h.2.1 0 0)
      refine Meets.ok (r := bi (cB a i k)) (a' := a') (m' := vR (vI m 0 0) i k (bi false)) ?_ ?_ rfl (Rel_set (Rel_v0 h 0) hi hk false e2 e3)
      · unfold fX7_remove
        simp only [s1, q1, e1, Option.bind_some, Sum.elim_inr, if_pos (lt8 hi)]
      · unfold fX8_remove
        simp only [s2, q2, pass_0, Option.bind_some, e, bi_case]
        rw [if_neg (by decide), mB_vI, h.2.2.1 i hi, Bool.xor_false]
    · refine Meets.e2 (r := 0) h ?_ ?_
      · unfold fX7_remove
        simp only [s1, q1, Option.bind_some, Sum.elim_inr, Sum.elim_inl, if_pos (lt8 hi)]
      · unfold fX8_remove
        simp only [s2, q2, pass_2, Option.bind_some, if_true]
  · refine Meets.e1 (r := 0) h ?_ ?_
    · unfold fX7_remove
      simp only [s1, Option.bind_some, Sum.elim_inl]
    · unfold fX8_remove
      simp only [s2, pass_1, Option.bind_some, if_true]
theorem g_has {a : cS} {m : mS} (h : Rel a m) (p q : Int32) : Meets 1 2 (fX7_has p q a) (fX8_has p q m) := by
  rcases set_or p with ⟨i, hi, rfl⟩ | ⟨s1, s2⟩
  · obtain ⟨s1, s2⟩ := set_in hi
    rcases mem_or q with ⟨k, hk, q1, q2, q3⟩ | ⟨q1, q2⟩
    · refine Meets.ok (r := bi (cB a i k)) (a' := a) (m' := vI m 0 0) ?_ ?_ rfl (Rel_v0 h 0)
      · unfold fX7_has
        simp only [s1, q1, Option.bind_some, Sum.elim_inr, if_pos (lt8 hi), p_holds i a hk]
      · unfold fX8_has
        simp only [s2, q2, q3, pass_0, Option.bind_some, vin8 hi, vin102 hk, cl8 hi, cl102 hk, if_true, mR_vI, mR_bi h.2.1 hk, bi_case]
        rw [if_neg (by decide), h.2.2.1 i hi]
    · refine Meets.e2 (r := 0) h ?_ ?_
      · unfold fX7_has
        simp only [s1, q1, Option.bind_some, Sum.elim_inr, Sum.elim_inl, if_pos (lt8 hi)]
      · unfold fX8_has
        simp only [s2, q2, pass_2, Option.bind_some, if_true]
  · refine Meets.e1 (r := 0) h ?_ ?_
    · unfold fX7_has
      simp only [s1, Option.bind_some, Sum.elim_inl]
    · unfold fX8_has
      simp only [s2, pass_1, Option.bind_some, if_true]
theorem one_0 {α : Type} (X Y : α) : (if (1 : Int32) = 0 then X else Y) = Y := if_neg (by decide)
theorem g_size {a : cS} {m : mS} (h : Rel a m) (p : Int32) : Meets 1 2 (fX7_size p a) (fX8_size p m) := by
  rcases set_or p with ⟨i, hi, rfl⟩ | ⟨s1, s2⟩
  · obtain ⟨s1, s2⟩ := set_in hi
    refine Meets.ok (r := nI (sz (cB a i))) (a' := a) (m' := vI m 0 0) ?_ ?_ rfl (Rel_v0 h 0)
    · unfold fX7_size
      simp only [s1, Option.bind_some, Sum.elim_inr, if_pos (lt8 hi), p_count i a h.1]
    · unfold fX8_size
      simp only [s2, pass_0, Option.bind_some, one_0, vin8 hi, cl8 hi, if_true, m_sizeOf, mB_vI, h.2.2.1 i hi]
  · refine Meets.e1 (r := 0) h ?_ ?_
    · unfold fX7_size
      simp only [s1, Option.bind_some, Sum.elim_inl]
    · unfold fX8_size
      simp only [s2, pass_1, Option.bind_some, if_true]
theorem g_sum {a : cS} {m : mS} (h : Rel a m) (p : Int32) : Meets 1 2 (fX7_sum p a) (fX8_sum p m) := by
  rcases set_or p with ⟨i, hi, rfl⟩ | ⟨s1, s2⟩
  · obtain ⟨s1, s2⟩ := set_in hi
    refine Meets.ok (r := sumI (cB a i) 101) (a' := a) (m' := vI m 0 0) ?_ ?_ rfl (Rel_v0 h 0)
    · unfold fX7_sum
      simp only [s1, Option.bind_some, Sum.elim_inr, if_pos (lt8 hi), p_total]
    · unfold fX8_sum
      simp only [s2, pass_0, Option.bind_some, one_0, vin8 hi, cl8 hi, if_true, m_sumOf, mB_vI, h.2.2.1 i hi]
  · refine Meets.e1 (r := 0) h ?_ ?_
    · unfold fX7_sum
      simp only [s1, Option.bind_some, Sum.elim_inl]
    · unfold fX8_sum
      simp only [s2, pass_1, Option.bind_some, if_true]
theorem mI_eq {m m' : mS} (h : m'.2 = m.2) (k : Nat) : mI m' k = mI m k := by unfold mI; rw [h]
theorem mT_eq {m m' : mS} (h : m'.2 = m.2) : mT m' = mT m := by unfold mT; rw [h]
theorem jn2_self (x : BS) : jn 2 x x = fun _ => false := by
  rw [jn_2]
  funext k
  exact Bool.and_not_self _
theorem wf_0 : wfB (fun _ => false) := fun _ _ => rfl
theorem g_clear {a : cS} {m : mS} (h : Rel a m) (p : Int32) : Meets 1 2 (fX7_clear p a) (fX8_clear p m) := by
  rcases set_or p with ⟨i, hi, rfl⟩ | ⟨s1, s2⟩
  · obtain ⟨s1, s2⟩ := set_in hi
    obtain ⟨a', e1, e2, e3⟩ := p_empty i a
    obtain ⟨m', f1, f2, f3, f4⟩ := m_joins i i 2 i (Vm_vI h.2.1 0 0)
    rw [jn2_self, mB_vI] at f3
    refine Meets.ok (r := nI (sz (cB a i))) (a' := a') (m' := m') ?_ ?_ ?_ (Rel_row h hi wf_0 e2 e3 (fun r _ _ => by rw [f3]) (mI_eq f4 1) (mI_eq f4 3) (mT_eq (m := vI m 0 0) f4) f2)
    · unfold fX7_clear
      simp only [s1, Option.bind_some, Sum.elim_inr, if_pos (lt8 hi), p_count i a h.1, e1]
    · unfold fX8_clear
      simp only [s2, pass_0, Option.bind_some, one_0, vin8 hi, cl8 hi, if_true, m_sizeOf, mB_vI, h.2.2.1 i hi, f1]
    · exact mI_eq f4 0
  · refine Meets.e1 (r := 0) h ?_ ?_
    · unfold fX7_clear
      simp only [s1, Option.bind_some, Sum.elim_inl]
    · unfold fX8_clear
      simp only [s2, pass_1, Option.bind_some, if_true]
/-- two sets in range, or one that isn't -/
theorem g_becomes {a : cS} {m : mS} (h : Rel a m) (how : Int32) {i j : Nat} (hi : i < 8) (hj : j < 8) : ∃ r a' m', fX2_combine i how j a = some (r, a') ∧ fX8_becomes (nI i) (nI j) how m = some (r, m') ∧ mI m' 0 = 0 ∧ Rel a' m' := by
  obtain ⟨s1, s2⟩ := set_in hi
  obtain ⟨t1, t2⟩ := set_in hj
  obtain ⟨a', e1, e2, e3⟩ := p_combine i how j a
  obtain ⟨m1, f1, f2, f3, f4⟩ := m_copies i 8 (Vm_vI h.2.1 0 0)
  obtain ⟨m2, g1, g2, g3, g4⟩ := m_joins 8 j how i f2
  rw [mB_vI] at f3
  have x8 : mB m1 8 = cB a i := by rw [f3, zu_at, h.2.2.1 i hi]
  have xj : mB m1 j = cB a j := by rw [f3, zu_ne _ (by omega), h.2.2.1 j hj]
  rw [x8, xj] at g3
  have y8 : mB m2 8 = cB a i := by rw [g3, zu_ne _ (by omega), x8]
  have yi : mB m2 i = jn how (cB a i) (cB a j) := by rw [g3, zu_at]
  refine ⟨_, a', m2, e1, ?_, ?_, Rel_row h hi (jn_wf (h.1 i) (h.1 j)) e2 e3 (fun r hr h8 => ?_) ?_ ?_ ?_ g2⟩
  · unfold fX8_becomes
    simp only [s2, t2, pass_0, Option.bind_some, one_0, vin8 hi, cl8 hi, vin8 hj, cl8 hj, if_true, f1, g1, m_areSame _ _ g2, y8, yi, bi_casen]
  · exact (mI_eq g4 0).trans (mI_eq f4 0)
  · rw [g3]
    by_cases e : r = i
    · rw [e, zu_at, zu_at]
    · rw [zu_ne _ e, zu_ne _ e, f3, zu_ne _ h8]
  · exact (mI_eq g4 1).trans (mI_eq f4 1)
  · exact (mI_eq g4 3).trans (mI_eq f4 3)
  · exact (mT_eq g4).trans (mT_eq (m := vI m 0 0) f4)
theorem becomes_out {p q : Int32} (how : Int32) (m : mS) (h : (∀ m, fX8_isSet p m = 0) ∨ ((∀ m, fX8_isSet p m = 1) ∧ ∀ m, fX8_isSet q m = 0)) : fX8_becomes p q how m = some (0, vI m 0 1) := by
  unfold fX8_becomes
  rcases h with h | ⟨h, g⟩
  · simp only [h, pass_1, Option.bind_some, if_true]
  · simp only [h, g, pass_1, Option.bind_some, if_true, one_0]
theorem bind_id {α β : Type} (o : Option (α × β)) : (o.bind fun (r, s) => some (r, s)) = o := by
  cases o <;> rfl
theorem g_unite {a : cS} {m : mS} (h : Rel a m) (p q : Int32) : Meets 1 2 (fX7_unite p q a) (fX8_unite p q m) := by
  unfold fX8_unite
  rw [bind_id]
  rcases set_or p with ⟨i, hi, rfl⟩ | ⟨s1, s2⟩
  · obtain ⟨s1, s2⟩ := set_in hi
    rcases set_or q with ⟨j, hj, rfl⟩ | ⟨t1, t2⟩
    · obtain ⟨t1, t2⟩ := set_in hj
      obtain ⟨r, a', m', e1, e2, e3, e4⟩ := g_becomes h 0 hi hj
      refine Meets.ok ?_ e2 e3 e4
      unfold fX7_unite
      simp only [s1, t1, Option.bind_some, Sum.elim_inr, if_pos (lt8 hi), if_pos (lt8 hj), e1]
    · refine Meets.e1 (r := 0) h ?_ (becomes_out 0 m (Or.inr ⟨s2, t2⟩))
      unfold fX7_unite
      simp only [s1, t1, Option.bind_some, Sum.elim_inr, Sum.elim_inl, if_pos (lt8 hi)]
  · refine Meets.e1 (r := 0) h ?_ (becomes_out 0 m (Or.inl s2))
    unfold fX7_unite
    simp only [s1, Option.bind_some, Sum.elim_inl]
theorem g_meet {a : cS} {m : mS} (h : Rel a m) (p q : Int32) : Meets 1 2 (fX7_meet p q a) (fX8_meet p q m) := by
  unfold fX8_meet
  rw [bind_id]
  rcases set_or p with ⟨i, hi, rfl⟩ | ⟨s1, s2⟩
  · obtain ⟨s1, s2⟩ := set_in hi
    rcases set_or q with ⟨j, hj, rfl⟩ | ⟨t1, t2⟩
    · obtain ⟨t1, t2⟩ := set_in hj
      obtain ⟨r, a', m', e1, e2, e3, e4⟩ := g_becomes h 1 hi hj
      refine Meets.ok ?_ e2 e3 e4
      unfold fX7_meet
      simp only [s1, t1, Option.bind_some, Sum.elim_inr, if_pos (lt8 hi), if_pos (lt8 hj), e1]
    · refine Meets.e1 (r := 0) h ?_ (becomes_out 1 m (Or.inr ⟨s2, t2⟩))
      unfold fX7_meet
      simp only [s1, t1, Option.bind_some, Sum.elim_inr, Sum.elim_inl, if_pos (lt8 hi)]
  · refine Meets.e1 (r := 0) h ?_ (becomes_out 1 m (Or.inl s2))
    unfold fX7_meet
    simp only [s1, Option.bind_some, Sum.elim_inl]
theorem g_without {a : cS} {m : mS} (h : Rel a m) (p q : Int32) : Meets 1 2 (fX7_without p q a) (fX8_without p q m) := by
  unfold fX8_without
  rw [bind_id]
  rcases set_or p with ⟨i, hi, rfl⟩ | ⟨s1, s2⟩
  · obtain ⟨s1, s2⟩ := set_in hi
    rcases set_or q with ⟨j, hj, rfl⟩ | ⟨t1, t2⟩
    · obtain ⟨t1, t2⟩ := set_in hj
      obtain ⟨r, a', m', e1, e2, e3, e4⟩ := g_becomes h 2 hi hj
      refine Meets.ok ?_ e2 e3 e4
      unfold fX7_without
      simp only [s1, t1, Option.bind_some, Sum.elim_inr, if_pos (lt8 hi), if_pos (lt8 hj), e1]
    · refine Meets.e1 (r := 0) h ?_ (becomes_out 2 m (Or.inr ⟨s2, t2⟩))
      unfold fX7_without
      simp only [s1, t1, Option.bind_some, Sum.elim_inr, Sum.elim_inl, if_pos (lt8 hi)]
  · refine Meets.e1 (r := 0) h ?_ (becomes_out 2 m (Or.inl s2))
    unfold fX7_without
    simp only [s1, Option.bind_some, Sum.elim_inl]
theorem g_copy {a : cS} {m : mS} (h : Rel a m) (p q : Int32) : Meets 1 2 (fX7_copy p q a) (fX8_copy p q m) := by
  rcases set_or p with ⟨i, hi, rfl⟩ | ⟨s1, s2⟩
  · obtain ⟨s1, s2⟩ := set_in hi
    rcases set_or q with ⟨j, hj, rfl⟩ | ⟨t1, t2⟩
    · obtain ⟨t1, t2⟩ := set_in hj
      obtain ⟨a', e1, e2, e3⟩ := p_become i j a
      obtain ⟨m', f1, f2, f3, f4⟩ := m_copies j i (Vm_vI h.2.1 0 0)
      rw [mB_vI, ← h.2.2.1 j hj] at f3
      have W := Wf_up h.1 (h.1 j) e2
      refine Meets.ok (r := nI (sz (cB a j))) (a' := a') (m' := m') ?_ ?_ (mI_eq f4 0) (Rel_row h hi (h.1 j) e2 e3 (fun r _ _ => by rw [f3]) (mI_eq f4 1) (mI_eq f4 3) (mT_eq (m := vI m 0 0) f4) f2)
      · unfold fX7_copy
        simp only [s1, t1, Option.bind_some, Sum.elim_inr, if_pos (lt8 hi), if_pos (lt8 hj), e1, p_count i a' W]
        rw [e2, zu_at]
      · unfold fX8_copy
        simp only [s2, t2, pass_0, Option.bind_some, one_0, vin8 hi, cl8 hi, vin8 hj, cl8 hj, if_true, f1, m_sizeOf]
        rw [f3, zu_at]
    · refine Meets.e1 (r := 0) h ?_ ?_
      · unfold fX7_copy
        simp only [s1, t1, Option.bind_some, Sum.elim_inr, Sum.elim_inl, if_pos (lt8 hi)]
      · unfold fX8_copy
        simp only [s2, t2, pass_1, Option.bind_some, if_true, one_0]
  · refine Meets.e1 (r := 0) h ?_ ?_
    · unfold fX7_copy
      simp only [s1, Option.bind_some, Sum.elim_inl]
    · unfold fX8_copy
      simp only [s2, pass_1, Option.bind_some, if_true]
theorem g_isWithin {a : cS} {m : mS} (h : Rel a m) (p q : Int32) : Meets 1 2 (fX7_isWithin p q a) (fX8_isWithin p q m) := by
  rcases set_or p with ⟨i, hi, rfl⟩ | ⟨s1, s2⟩
  · obtain ⟨s1, s2⟩ := set_in hi
    rcases set_or q with ⟨j, hj, rfl⟩ | ⟨t1, t2⟩
    · obtain ⟨t1, t2⟩ := set_in hj
      refine Meets.ok (r := bi (inn (cB a i) (cB a j))) (a' := a) (m' := vI m 0 0) ?_ ?_ rfl (Rel_v0 h 0)
      · unfold fX7_isWithin
        simp only [s1, t1, Option.bind_some, Sum.elim_inr, if_pos (lt8 hi), if_pos (lt8 hj), p_holdsAll]
      · unfold fX8_isWithin
        simp only [s2, t2, pass_0, Option.bind_some, one_0, vin8 hi, cl8 hi, vin8 hj, cl8 hj, if_true, m_lies, mB_vI, bi_case, h.2.2.1 i hi, h.2.2.1 j hj]
    · refine Meets.e1 (r := 0) h ?_ ?_
      · unfold fX7_isWithin
        simp only [s1, t1, Option.bind_some, Sum.elim_inr, Sum.elim_inl, if_pos (lt8 hi)]
      · unfold fX8_isWithin
        simp only [s2, t2, pass_1, Option.bind_some, if_true, one_0]
  · refine Meets.e1 (r := 0) h ?_ ?_
    · unfold fX7_isWithin
      simp only [s1, Option.bind_some, Sum.elim_inl]
    · unfold fX8_isWithin
      simp only [s2, pass_1, Option.bind_some, if_true]
theorem g_isSame {a : cS} {m : mS} (h : Rel a m) (p q : Int32) : Meets 1 2 (fX7_isSame p q a) (fX8_isSame p q m) := by
  rcases set_or p with ⟨i, hi, rfl⟩ | ⟨s1, s2⟩
  · obtain ⟨s1, s2⟩ := set_in hi
    rcases set_or q with ⟨j, hj, rfl⟩ | ⟨t1, t2⟩
    · obtain ⟨t1, t2⟩ := set_in hj
      refine Meets.ok (r := bi (same (cB a i) (cB a j))) (a' := a) (m' := vI m 0 0) ?_ ?_ rfl (Rel_v0 h 0)
      · unfold fX7_isSame
        simp only [s1, t1, Option.bind_some, Sum.elim_inr, if_pos (lt8 hi), if_pos (lt8 hj), p_sameAs]
      · unfold fX8_isSame
        simp only [s2, t2, pass_0, Option.bind_some, one_0, vin8 hi, cl8 hi, vin8 hj, cl8 hj, if_true, m_areSame _ _ (Vm_vI h.2.1 0 0), mB_vI, bi_case, h.2.2.1 i hi, h.2.2.1 j hj]
    · refine Meets.e1 (r := 0) h ?_ ?_
      · unfold fX7_isSame
        simp only [s1, t1, Option.bind_some, Sum.elim_inr, Sum.elim_inl, if_pos (lt8 hi)]
      · unfold fX8_isSame
        simp only [s2, t2, pass_1, Option.bind_some, if_true, one_0]
  · refine Meets.e1 (r := 0) h ?_ ?_
    · unfold fX7_isSame
      simp only [s1, Option.bind_some, Sum.elim_inl]
    · unfold fX8_isSame
      simp only [s2, pass_1, Option.bind_some, if_true]
theorem sz_0 {x : BS} (hx : wfB x) : sz x = 0 ↔ ∀ k, x k = false := by
  unfold sz
  rw [fb_ct_zero]
  constructor
  · intro h k
    by_cases g : k < 102
    · exact h k g
    · exact hx k (by omega)
  · intro h k _
    exact h k
theorem nI_eq0 {n : Nat} (h : n < 2 ^ 31) : nI n = 0 ↔ n = 0 := nI_eq (b := 0) h (by decide)
theorem g_isApart {a : cS} {m : mS} (h : Rel a m) (p q : Int32) : Meets 1 2 (fX7_isApart p q a) (fX8_isApart p q m) := by
  rcases set_or p with ⟨i, hi, rfl⟩ | ⟨s1, s2⟩
  · obtain ⟨s1, s2⟩ := set_in hi
    rcases set_or q with ⟨j, hj, rfl⟩ | ⟨t1, t2⟩
    · obtain ⟨t1, t2⟩ := set_in hj
      obtain ⟨m', f1, f2, f3, f4⟩ := m_joins i j 1 8 (Vm_vI h.2.1 0 0)
      rw [mB_vI, ← h.2.2.1 i hi, ← h.2.2.1 j hj] at f3
      have k : nI (sz (mB m' 8)) = 0 ↔ apart (cB a i) (cB a j) = true := by
        have := sz_le (mB m' 8)
        rw [nI_eq0 (by omega), sz_0 (mB_wf m' 8), f3, zu_at, jn_1]
        unfold apart
        rw [pd_iff]
        exact forall_congr' fun k => by show (cB a i k && cB a j k) = false ↔ _; cases cB a i k <;> cases cB a j k <;> decide
      refine Meets.ok (r := bi (apart (cB a i) (cB a j))) (a' := a) (m' := m') ?_ ?_ (mI_eq f4 0) (Rel_keep h (aeq_refl a) (meq_trans (meq_v0 m 0) (meq_up (Or.inr rfl) f3 f4)) h.1 f2)
      · unfold fX7_isApart
        simp only [s1, t1, Option.bind_some, Sum.elim_inr, if_pos (lt8 hi), if_pos (lt8 hj), p_sharesNone]
      · unfold fX8_isApart
        simp only [s2, t2, pass_0, Option.bind_some, one_0, vin8 hi, cl8 hi, vin8 hj, cl8 hj, if_true, f1, m_sizeOf, if_bool k]
        cases apart (cB a i) (cB a j) <;> rfl
    · refine Meets.e1 (r := 0) h ?_ ?_
      · unfold fX7_isApart
        simp only [s1, t1, Option.bind_some, Sum.elim_inr, Sum.elim_inl, if_pos (lt8 hi)]
      · unfold fX8_isApart
        simp only [s2, t2, pass_1, Option.bind_some, if_true, one_0]
  · refine Meets.e1 (r := 0) h ?_ ?_
    · unfold fX7_isApart
      simp only [s1, Option.bind_some, Sum.elim_inl]
    · unfold fX8_isApart
      simp only [s2, pass_1, Option.bind_some, if_true]
