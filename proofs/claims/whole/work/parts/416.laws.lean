/-! ===== lawErrors: no law fails, on either side ===== -/
theorem jn_com {how : Int32} (h : how = 0 ∨ how = 1) (x y : BS) : jn how x y = jn how y x := by
  rcases h with rfl | rfl
  · funext k; exact Bool.or_comm _ _
  · funext k; exact Bool.and_comm _ _
theorem jn_assoc {how : Int32} (h : how = 0 ∨ how = 1) (x y z : BS) : jn how (jn how x y) z = jn how x (jn how y z) := by
  rcases h with rfl | rfl
  · funext k; exact Bool.or_assoc _ _ _
  · funext k; exact Bool.and_assoc _ _ _
theorem jn_idem {how : Int32} (h : how = 0 ∨ how = 1) (x : BS) : jn how x x = x := by
  rcases h with rfl | rfl
  · funext k; exact Bool.or_self _
  · funext k; exact Bool.and_self _
/-- x o (y i z) is (x o y) i (x o z) -/
theorem jn_dist {i o : Int32} (h : i = 0 ∧ o = 1 ∨ i = 1 ∧ o = 0) (x y z : BS) : jn o x (jn i y z) = jn i (jn o x y) (jn o x z) := by
  rcases h with ⟨rfl, rfl⟩ | ⟨rfl, rfl⟩
  · funext k; show (x k && (y k || z k)) = (x k && y k || x k && z k); cases x k <;> cases y k <;> cases z k <;> rfl
  · funext k; show (x k || (y k && z k)) = ((x k || y k) && (x k || z k)); cases x k <;> cases y k <;> cases z k <;> rfl
/-- x - (y i z) is (x - y) t (x - z) -/
theorem jn_dm {i t : Int32} (h : i = 0 ∧ t = 1 ∨ i = 1 ∧ t = 0) (x y z : BS) : jn 2 x (jn i y z) = jn t (jn 2 x y) (jn 2 x z) := by
  rcases h with ⟨rfl, rfl⟩ | ⟨rfl, rfl⟩
  · funext k; show (x k && !(y k || z k)) = ((x k && !y k) && (x k && !z k)); cases x k <;> cases y k <;> cases z k <;> rfl
  · funext k; show (x k && !(y k && z k)) = ((x k && !y k) || (x k && !z k)); cases x k <;> cases y k <;> cases z k <;> rfl
theorem inn_or (x y : BS) : inn x y = same (jn 0 x y) y := pd_congr ⟨fun h => funext fun k => by
  show (x k || y k) = y k
  cases hx : x k
  · rfl
  · rw [h k hx]; rfl, fun h k hx => by
  have := congrFun h k
  rw [← this]
  show (x k || y k) = true
  rw [hx]; rfl⟩
theorem inn_and (x y : BS) : inn x y = same (jn 1 x y) x := pd_congr ⟨fun h => funext fun k => by
  show (x k && y k) = x k
  cases hx : x k
  · rfl
  · rw [h k hx]; rfl, fun h k hx => by
  have := congrFun h k
  have t : (x k && y k) = x k := this
  rw [hx] at t
  simpa using t⟩
theorem inn_dif {x y : BS} (hx : wfB x) : inn x y = true ↔ sz (jn 2 x y) = 0 := by
  have w : wfB (jn 2 x y) := fun k hk => by show (x k && !y k) = false; rw [hx k hk]; rfl
  rw [sz_0 w]
  unfold inn
  rw [pd_iff]
  exact forall_congr' fun k => by show _ ↔ (x k && !y k) = false; cases x k <;> cases y k <;> decide
theorem incl_excl (x y z : BS) : ∀ n, fb_ct (jn 0 (jn 0 x y) z) n + fb_ct (jn 1 x y) n + fb_ct (jn 1 x z) n + fb_ct (jn 1 y z) n = fb_ct x n + fb_ct y n + fb_ct z n + fb_ct (jn 1 (jn 1 x y) z) n
  | 0 => rfl
  | n + 1 => by
    have ih := incl_excl x y z n
    simp only [fb_ct_succ]
    have e1 : jn 0 (jn 0 x y) z n = (x n || y n || z n) := rfl
    have e2 : jn 1 x y n = (x n && y n) := rfl
    have e3 : jn 1 x z n = (x n && z n) := rfl
    have e4 : jn 1 y z n = (y n && z n) := rfl
    have e5 : jn 1 (jn 1 x y) z n = (x n && y n && z n) := rfl
    rw [e1, e2, e3, e4, e5]
    cases x n <;> cases y n <;> cases z n <;> simp <;> omega
theorem ie_sz (x y z : BS) : sz (jn 0 (jn 0 x y) z) + sz (jn 1 x y) + sz (jn 1 x z) + sz (jn 1 y z) = sz x + sz y + sz z + sz (jn 1 (jn 1 x y) z) := incl_excl x y z 102
theorem meet_le (x y z : BS) : sz (jn 1 (jn 1 x y) z) ≤ sz (jn 0 (jn 0 x y) z) := fb_ct_sub fun k _ h => by
  have h : (x k && y k && z k) = true := h
  show (x k || y k || z k) = true
  revert h
  cases x k <;> cases y k <;> cases z k <;> decide
theorem meet_le1 (x y : BS) : sz (jn 1 x y) ≤ sz x := fb_ct_sub fun k _ h => by
  have h : (x k && y k) = true := h
  revert h
  cases x k <;> cases y k <;> decide
/-! the class's side -/
def clf (s s' : cS) : Prop := Wf s' ∧ s'.2.2 = s.2.2 ∧ ∀ n, n < 52 → cB s' n = cB s n
theorem clf_refl {s : cS} (W : Wf s) : clf s s := ⟨W, rfl, fun _ _ => rfl⟩
theorem clf_trans {a b c : cS} (h : clf a b) (g : clf b c) : clf a c := ⟨g.1, g.2.1.trans h.2.1, fun n hn => (g.2.2 n hn).trans (h.2.2 n hn)⟩
theorem c_mk {n : Nat} (how : Int32) {x y : Nat} (hn : 52 ≤ n) (h : n ≠ y) {s : cS} (W : Wf s) : ∃ s', fX1_make n how x y s = some s' ∧ clf s s' ∧ cB s' n = jn how (cB s x) (cB s y) ∧ ∀ q, q ≠ n → cB s' q = cB s q := by
  obtain ⟨s1, e1, e2, e3⟩ := p_become n x s
  obtain ⟨s2, g1, g2, g3⟩ := p_combine n how y s1
  have a1 : cB s1 n = cB s x := by rw [e2]; exact zu_at _ _ _
  have a2 : ∀ q, q ≠ n → cB s1 q = cB s q := fun q hq => by rw [e2]; exact zu_ne _ hq _
  rw [a1, a2 y (Ne.symm h)] at g2
  have b1 : cB s2 n = jn how (cB s x) (cB s y) := by rw [g2]; exact zu_at _ _ _
  have b2 : ∀ q, q ≠ n → cB s2 q = cB s q := fun q hq => by rw [g2]; exact (zu_ne _ hq _).trans (a2 q hq)
  refine ⟨s2, ?_, ⟨Wf_up (Wf_up W (W x) e2) (jn_wf (W x) (W y)) g2, g3.trans e3, fun q hq => b2 q (by omega)⟩, b1, b2⟩
  unfold fX1_make
  rw [e1]
  simp only [Option.bind_some, g1]
theorem c_cmb {n : Nat} (how : Int32) {y : Nat} (hn : 52 ≤ n) {s : cS} (W : Wf s) : ∃ r s', fX2_combine n how y s = some (r, s') ∧ clf s s' ∧ cB s' n = jn how (cB s n) (cB s y) ∧ ∀ q, q ≠ n → cB s' q = cB s q := by
  obtain ⟨s2, g1, g2, g3⟩ := p_combine n how y s
  have b2 : ∀ q, q ≠ n → cB s2 q = cB s q := fun q hq => by rw [g2]; exact zu_ne _ hq _
  exact ⟨_, s2, g1, ⟨Wf_up W (jn_wf (W n) (W y)) g2, g3, fun q hq => b2 q (by omega)⟩, by rw [g2]; exact zu_at _ _ _, b2⟩
theorem sides_0 {s : cS} (h : cB s 52 = cB s 53) : fX1_sidesDiffer s = 0 := by
  unfold fX1_sidesDiffer
  rw [p_sameAs, h, same_self]
  rfl
theorem c_order {how : Int32} (hh : how = 0 ∨ how = 1) {a b : Nat} (ha : a < 52) (hb : b < 52) {s : cS} (W : Wf s) : ∃ s', fX1_orderErrors how a b s = some (0, s') ∧ clf s s' := by
  obtain ⟨s1, e1, e2, e3, e4⟩ := c_mk (n := 52) how (x := a) (y := b) (by omega) (by omega) W
  obtain ⟨s2, f1, f2, f3, f4⟩ := c_mk (n := 53) how (x := b) (y := a) (by omega) (by omega) e2.1
  refine ⟨s2, ?_, clf_trans e2 f2⟩
  unfold fX1_orderErrors
  rw [e1]
  simp only [Option.bind_some, f1]
  rw [sides_0 (by rw [f4 52 (by omega), e3, f3, e4 b (by omega), e4 a (by omega)]; exact jn_com hh _ _)]
theorem c_bracket {how : Int32} (hh : how = 0 ∨ how = 1) {a b c : Nat} (ha : a < 52) (hb : b < 52) (hc : c < 52) {s : cS} (W : Wf s) : ∃ s', fX1_bracketErrors how a b c s = some (0, s') ∧ clf s s' := by
  obtain ⟨s1, e1, e2, e3, e4⟩ := c_mk (n := 52) how (x := a) (y := b) (by omega) (by omega) W
  obtain ⟨r, s2, f1, f2, f3, f4⟩ := c_cmb (n := 52) how (y := c) (by omega) e2.1
  obtain ⟨s3, g1, g2, g3, g4⟩ := c_mk (n := 54) how (x := b) (y := c) (by omega) (by omega) f2.1
  obtain ⟨s4, h1, h2, h3, h4⟩ := c_mk (n := 53) how (x := a) (y := 54) (by omega) (by omega) g2.1
  refine ⟨s4, ?_, clf_trans e2 (clf_trans f2 (clf_trans g2 h2))⟩
  unfold fX1_bracketErrors
  rw [e1]
  simp only [Option.bind_some, f1, g1, h1]
  rw [sides_0 (by
    rw [h4 52 (by omega), g4 52 (by omega), f3, e3, e4 c (by omega), h3, g4 a (by omega), f4 a (by omega), e4 a (by omega), g3, f4 b (by omega), f4 c (by omega), e4 b (by omega), e4 c (by omega)]
    exact jn_assoc hh _ _ _)]
theorem c_itself {a : Nat} (ha : a < 52) {s : cS} (W : Wf s) : ∃ s', fX1_itselfErrors a s = some (0, s') ∧ clf s s' := by
  obtain ⟨s1, e1, e2, e3, e4⟩ := c_mk (n := 52) 0 (x := a) (y := a) (by omega) (by omega) W
  obtain ⟨s2, f1, f2, f3, f4⟩ := c_mk (n := 53) 1 (x := a) (y := a) (by omega) (by omega) e2.1
  obtain ⟨s3, g1, g2, g3, g4⟩ := c_mk (n := 54) 2 (x := a) (y := a) (by omega) (by omega) f2.1
  have xa : cB s3 a = cB s a := by rw [g4 a (by omega), f4 a (by omega), e4 a (by omega)]
  have x52 : cB s3 52 = cB s a := by rw [g4 52 (by omega), f4 52 (by omega), e3]; exact jn_idem (Or.inl rfl) _
  have x53 : cB s3 53 = cB s a := by rw [g4 53 (by omega), f3, e4 a (by omega)]; exact jn_idem (Or.inr rfl) _
  have x54 : cB s3 54 = fun _ => false := by rw [g3]; exact jn2_self _
  have ct : fX2_count 54 s3 = 0 := by
    rw [p_count 54 s3 g2.1, x54, show sz (fun _ => false) = 0 from (sz_0 wf_0).mpr (fun _ => rfl)]
    rfl
  refine ⟨s3, ?_, clf_trans e2 (clf_trans f2 g2)⟩
  unfold fX1_itselfErrors
  rw [e1]
  simp only [Option.bind_some, f1, g1, p_sameAs, x52, x53, xa, same_self, ct, if_bi, if_true]
  rfl
theorem c_part {i o : Int32} (hh : i = 0 ∧ o = 1 ∨ i = 1 ∧ o = 0) {a b c : Nat} (ha : a < 52) (hb : b < 52) (hc : c < 52) {s : cS} (W : Wf s) : ∃ s', fX1_partErrors i o a b c s = some (0, s') ∧ clf s s' := by
  obtain ⟨s1, e1, e2, e3, e4⟩ := c_mk (n := 54) i (x := b) (y := c) (by omega) (by omega) W
  obtain ⟨s2, f1, f2, f3, f4⟩ := c_mk (n := 52) o (x := a) (y := 54) (by omega) (by omega) e2.1
  obtain ⟨s3, g1, g2, g3, g4⟩ := c_mk (n := 54) o (x := a) (y := c) (by omega) (by omega) f2.1
  obtain ⟨s4, h1, h2, h3, h4⟩ := c_mk (n := 53) o (x := a) (y := b) (by omega) (by omega) g2.1
  obtain ⟨r, s5, k1, k2, k3, k4⟩ := c_cmb (n := 53) i (y := 54) (by omega) h2.1
  refine ⟨s5, ?_, clf_trans e2 (clf_trans f2 (clf_trans g2 (clf_trans h2 k2)))⟩
  unfold fX1_partErrors
  rw [e1]
  simp only [Option.bind_some, f1, g1, h1, k1]
  rw [sides_0 (by
    rw [k4 52 (by omega), h4 52 (by omega), g4 52 (by omega), f3, e4 a (by omega), e3, k3, h3, h4 54 (by omega), g3, g4 a (by omega), g4 b (by omega), f4 a (by omega), f4 b (by omega), f4 c (by omega), e4 a (by omega), e4 b (by omega), e4 c (by omega)]
    exact jn_dist hh _ _ _)]
theorem c_without {i t : Int32} (hh : i = 0 ∧ t = 1 ∨ i = 1 ∧ t = 0) {a b c : Nat} (ha : a < 52) (hb : b < 52) (hc : c < 52) {s : cS} (W : Wf s) : ∃ s', fX1_withoutErrors i t a b c s = some (0, s') ∧ clf s s' := by
  obtain ⟨s1, e1, e2, e3, e4⟩ := c_mk (n := 54) i (x := b) (y := c) (by omega) (by omega) W
  obtain ⟨s2, f1, f2, f3, f4⟩ := c_mk (n := 52) 2 (x := a) (y := 54) (by omega) (by omega) e2.1
  obtain ⟨s3, g1, g2, g3, g4⟩ := c_mk (n := 54) 2 (x := a) (y := c) (by omega) (by omega) f2.1
  obtain ⟨s4, h1, h2, h3, h4⟩ := c_mk (n := 53) 2 (x := a) (y := b) (by omega) (by omega) g2.1
  obtain ⟨r, s5, k1, k2, k3, k4⟩ := c_cmb (n := 53) t (y := 54) (by omega) h2.1
  refine ⟨s5, ?_, clf_trans e2 (clf_trans f2 (clf_trans g2 (clf_trans h2 k2)))⟩
  unfold fX1_withoutErrors
  rw [e1]
  simp only [Option.bind_some, f1, g1, h1, k1]
  rw [sides_0 (by
    rw [k4 52 (by omega), h4 52 (by omega), g4 52 (by omega), f3, e4 a (by omega), e3, k3, h3, h4 54 (by omega), g3, g4 a (by omega), g4 b (by omega), f4 a (by omega), f4 b (by omega), f4 c (by omega), e4 a (by omega), e4 b (by omega), e4 c (by omega)]
    exact jn_dm hh _ _ _)]
theorem c_within {a b : Nat} (ha : a < 52) (hb : b < 52) {s : cS} (W : Wf s) : ∃ s', fX1_withinErrors a b s = some (0, s') ∧ clf s s' := by
  obtain ⟨s2, e1, e2, e3, e4⟩ := c_mk (n := 52) 0 (x := a) (y := b) (by omega) (by omega) W
  obtain ⟨s3, f1, f2, f3, f4⟩ := c_mk (n := 53) 1 (x := a) (y := b) (by omega) (by omega) e2.1
  obtain ⟨s4, g1, g2, g3, g4⟩ := c_mk (n := 54) 2 (x := a) (y := b) (by omega) (by omega) f2.1
  have xa : cB s4 a = cB s a := by rw [g4 a (by omega), f4 a (by omega), e4 a (by omega)]
  have xb : cB s4 b = cB s b := by rw [g4 b (by omega), f4 b (by omega), e4 b (by omega)]
  have x52 : cB s4 52 = jn 0 (cB s a) (cB s b) := by rw [g4 52 (by omega), f4 52 (by omega), e3]
  have x53 : cB s4 53 = jn 1 (cB s a) (cB s b) := by rw [g4 53 (by omega), f3, e4 a (by omega), e4 b (by omega)]
  have x54 : cB s4 54 = jn 2 (cB s a) (cB s b) := by rw [g3, f4 a (by omega), f4 b (by omega), e4 a (by omega), e4 b (by omega)]
  have sl := sz_le (jn 2 (cB s a) (cB s b))
  refine ⟨s4, ?_, clf_trans e2 (clf_trans f2 g2)⟩
  unfold fX1_withinErrors
  rw [e1]
  simp only [Option.bind_some, f1, g1, p_sameAs, p_holdsAll, p_count 54 s4 g2.1, x52, x53, x54, xa, xb]
  rw [← inn_or, ← inn_and, if_pos rfl, if_pos rfl]
  have k := inn_dif (y := cB s b) (W a)
  cases e : inn (cB s a) (cB s b)
  · rw [e] at k
    rw [if_neg (fun z => Bool.noConfusion (k.mpr ((nI_eq0 (by omega)).mp z))), if_pos (show bi false = 0 from rfl)]
    rfl
  · rw [e] at k
    rw [k.mp rfl, if_pos (show nI 0 = 0 from rfl), if_pos (show bi true = 1 from rfl)]
    rfl
theorem size_id {A B C AB ABC AC BC U : Nat} (h : U + AB + AC + BC = A + B + C + ABC) (h1 : AB ≤ A) : nI U = nI A + nI B + nI C - nI AB + nI ABC - nI AC - nI BC := by
  rw [nI_add, nI_add, pk_sub (by omega), nI_add, pk_sub (by omega), pk_sub (by omega)]
  congr 1
  omega
theorem size_id2 {A B C AB ABC AC BC U : Nat} (h : U + AB + AC + BC = A + B + C + ABC) (h1 : ABC ≤ U) : nI U = nI A + nI B + nI C - nI AB - nI AC - nI BC + nI ABC := by
  rw [nI_add, nI_add, pk_sub (by omega), pk_sub (by omega), pk_sub (by omega), nI_add]
  congr 1
  omega
theorem c_size {a b c : Nat} (ha : a < 52) (hb : b < 52) (hc : c < 52) {s : cS} (W : Wf s) : ∃ s', fX1_sizeErrors a b c s = some (0, s') ∧ clf s s' := by
  obtain ⟨s1, e1, e2, e3, e4⟩ := c_mk (n := 52) 0 (x := a) (y := b) (by omega) (by omega) W
  obtain ⟨r, s2, f1, f2, f3, f4⟩ := c_cmb (n := 52) 0 (y := c) (by omega) e2.1
  obtain ⟨s3, g1, g2, g3, g4⟩ := c_mk (n := 53) 1 (x := a) (y := b) (by omega) (by omega) f2.1
  obtain ⟨r8, s8, h1, h2, h3, h4⟩ := c_cmb (n := 53) 1 (y := c) (by omega) g2.1
  obtain ⟨s10, k1, k2, k3, k4⟩ := c_mk (n := 53) 1 (x := a) (y := c) (by omega) (by omega) h2.1
  obtain ⟨s12, l1, l2, l3, l4⟩ := c_mk (n := 53) 1 (x := b) (y := c) (by omega) (by omega) k2.1
  have q2 : ∀ n, n < 52 → cB s2 n = cB s n := fun n hn => by rw [f4 n (by omega), e4 n (by omega)]
  have q3 : ∀ n, n < 52 → cB s3 n = cB s n := fun n hn => by rw [g4 n (by omega), q2 n hn]
  have q8 : ∀ n, n < 52 → cB s8 n = cB s n := fun n hn => by rw [h4 n (by omega), q3 n hn]
  have q10 : ∀ n, n < 52 → cB s10 n = cB s n := fun n hn => by rw [k4 n (by omega), q8 n hn]
  have y52 : cB s12 52 = jn 0 (jn 0 (cB s a) (cB s b)) (cB s c) := by
    rw [l4 52 (by omega), k4 52 (by omega), h4 52 (by omega), g4 52 (by omega), f3, e3, e4 c (by omega)]
  have y3 : cB s3 53 = jn 1 (cB s a) (cB s b) := by rw [g3, q2 a ha, q2 b hb]
  have y8 : cB s8 53 = jn 1 (jn 1 (cB s a) (cB s b)) (cB s c) := by rw [h3, y3, q3 c hc]
  have y10 : cB s10 53 = jn 1 (cB s a) (cB s c) := by rw [k3, q8 a ha, q8 c hc]
  have y12 : cB s12 53 = jn 1 (cB s b) (cB s c) := by rw [l3, q10 b hb, q10 c hc]
  refine ⟨s12, ?_, clf_trans e2 (clf_trans f2 (clf_trans g2 (clf_trans h2 (clf_trans k2 l2))))⟩
  unfold fX1_sizeErrors
  rw [e1]
  simp only [Option.bind_some, f1, g1, h1, k1, l1]
  rw [p_count 52 s12 l2.1, p_count a s3 g2.1, p_count b s3 g2.1, p_count c s3 g2.1, p_count 53 s3 g2.1, p_count 53 s8 h2.1, p_count 53 s10 k2.1, p_count 53 s12 l2.1, y52, y3, y8, y10, y12, q3 a ha, q3 b hb, q3 c hc]
  rw [if_pos (size_id (ie_sz (cB s a) (cB s b) (cB s c)) (meet_le1 _ _))]
theorem c_errors {a b c : Nat} (ha : a < 52) (hb : b < 52) (hc : c < 52) {s : cS} (W : Wf s) : ∃ s', fX1_errorsOf a b c s = some (0, s') ∧ clf s s' := by
  obtain ⟨s1, e1, e1'⟩ := c_order (how := 0) (Or.inl rfl) ha hb W
  obtain ⟨s2, e2, e2'⟩ := c_order (how := 1) (Or.inr rfl) ha hb e1'.1
  obtain ⟨s3, e3, e3'⟩ := c_bracket (how := 0) (Or.inl rfl) ha hb hc e2'.1
  obtain ⟨s4, e4, e4'⟩ := c_bracket (how := 1) (Or.inr rfl) ha hb hc e3'.1
  obtain ⟨s5, e5, e5'⟩ := c_itself ha e4'.1
  obtain ⟨s6, e6, e6'⟩ := c_part (i := 0) (o := 1) (Or.inl ⟨rfl, rfl⟩) ha hb hc e5'.1
  obtain ⟨s7, e7, e7'⟩ := c_part (i := 1) (o := 0) (Or.inr ⟨rfl, rfl⟩) ha hb hc e6'.1
  obtain ⟨s8, e8, e8'⟩ := c_without (i := 0) (t := 1) (Or.inl ⟨rfl, rfl⟩) ha hb hc e7'.1
  obtain ⟨s9, e9, e9'⟩ := c_without (i := 1) (t := 0) (Or.inr ⟨rfl, rfl⟩) ha hb hc e8'.1
  obtain ⟨s10, e10, e10'⟩ := c_within ha hb e9'.1
  obtain ⟨s11, e11, e11'⟩ := c_size ha hb hc e10'.1
  refine ⟨s11, ?_, clf_trans e1' (clf_trans e2' (clf_trans e3' (clf_trans e4' (clf_trans e5' (clf_trans e6' (clf_trans e7' (clf_trans e8' (clf_trans e9' (clf_trans e10' e11')))))))))⟩
  unfold fX1_errorsOf
  rw [e1]
  simp only [Option.bind_some, e2, e3, e4, e5, e6, e7, e8, e9, e10, e11]
  rfl
theorem c_laws {a b c : Nat} (ha : a < 52) (hb : b < 52) (hc : c < 52) {s : cS} (W : Wf s) : ∃ s', fX1_errorsEachWay a b c s = some (0, s') ∧ clf s s' := by
  obtain ⟨s1, e1, e1'⟩ := c_errors ha hb hc W
  obtain ⟨s2, e2, e2'⟩ := c_errors ha hc hb e1'.1
  obtain ⟨s3, e3, e3'⟩ := c_errors hb ha hc e2'.1
  obtain ⟨s4, e4, e4'⟩ := c_errors hb hc ha e3'.1
  obtain ⟨s5, e5, e5'⟩ := c_errors hc ha hb e4'.1
  obtain ⟨s6, e6, e6'⟩ := c_errors hc hb ha e5'.1
  refine ⟨s6, ?_, clf_trans e1' (clf_trans e2' (clf_trans e3' (clf_trans e4' (clf_trans e5' e6'))))⟩
  unfold fX1_errorsEachWay
  rw [e1]
  simp only [Option.bind_some, e2, e3, e4, e5, e6]
  rfl
/-! the reference's side -/
def mlf (m m' : mS) : Prop := Vm m' ∧ m'.2 = m.2 ∧ ∀ r, r < 64 → mB m' r = mB m r
theorem mlf_trans {a b c : mS} (h : mlf a b) (g : mlf b c) : mlf a c := ⟨g.1, g.2.1.trans h.2.1, fun n hn => (g.2.2 n hn).trans (h.2.2 n hn)⟩
theorem m_j (a b : Nat) (how : Int32) {c : Nat} (hc : 64 ≤ c) {m : mS} (V : Vm m) : ∃ m', fX8_joins a b how c m = some m' ∧ mlf m m' ∧ mB m' c = jn how (mB m a) (mB m b) ∧ ∀ r, r ≠ c → mB m' r = mB m r := by
  obtain ⟨m', h1, h2, h3, h4⟩ := m_joins a b how c V
  have n : ∀ r, r ≠ c → mB m' r = mB m r := fun r hr => by rw [h3]; exact zu_ne _ hr _
  exact ⟨m', h1, ⟨h2, h4, fun r hr => n r (by omega)⟩, by rw [h3]; exact zu_at _ _ _, n⟩
theorem others_0 {m : mS} (V : Vm m) (h : mB m 64 = mB m 65) : fX8_others m = some (0, m) := by
  unfold fX8_others
  rw [m_areSame _ _ V, h, same_self]
  rfl
theorem m_three0 {x y z : Nat} (hx : x < 64) (hy : y < 64) (hz : z < 64) (i o : Int32) {n : Nat} (hn : n = 64 ∨ n = 65) {m : mS} (V : Vm m) : ∃ m', fX8_three x y z i o 0 n m = some m' ∧ mlf m m' ∧ mB m' n = jn o (jn i (mB m x) (mB m y)) (mB m z) ∧ ∀ r, r ≠ 66 → r ≠ n → mB m' r = mB m r := by
  obtain ⟨m1, e1, e2, e3, e4⟩ := m_j x y i (c := 66) (by omega) V
  obtain ⟨m2, f1, f2, f3, f4⟩ := m_j 66 z o (c := n) (by omega) e2.1
  refine ⟨m2, ?_, mlf_trans e2 f2, by rw [f3, e3, e4 z (by omega)], fun r h1 h2 => by rw [f4 r h2, e4 r h1]⟩
  unfold fX8_three
  simp only [if_true, e1, Option.bind_some, f1]
theorem m_three1 {x y z : Nat} (hx : x < 64) (hy : y < 64) (hz : z < 64) (i o : Int32) {n : Nat} (hn : n = 64 ∨ n = 65) {m : mS} (V : Vm m) : ∃ m', fX8_three x y z i o 1 n m = some m' ∧ mlf m m' ∧ mB m' n = jn o (mB m x) (jn i (mB m y) (mB m z)) ∧ ∀ r, r ≠ 66 → r ≠ n → mB m' r = mB m r := by
  obtain ⟨m1, e1, e2, e3, e4⟩ := m_j y z i (c := 66) (by omega) V
  obtain ⟨m2, f1, f2, f3, f4⟩ := m_j x 66 o (c := n) (by omega) e2.1
  refine ⟨m2, ?_, mlf_trans e2 f2, by rw [f3, e3, e4 x (by omega)], fun r h1 h2 => by rw [f4 r h2, e4 r h1]⟩
  unfold fX8_three
  simp only [one_0, e1, Option.bind_some, f1]
theorem m_orders {how : Int32} (hh : how = 0 ∨ how = 1) {x y z : Nat} (hx : x < 64) (hy : y < 64) (hz : z < 64) {m : mS} (V : Vm m) : ∃ m', fX8_ordersAndBrackets x y z how m = some (0, m') ∧ mlf m m' := by
  obtain ⟨m1, a1, a2, a3, a4⟩ := m_j x y how (c := 64) (by omega) V
  obtain ⟨m2, b1, b2, b3, b4⟩ := m_j y x how (c := 65) (by omega) a2.1
  have o1 : fX8_others m2 = some (0, m2) := others_0 b2.1 (by rw [b4 64 (by omega), a3, b3, a4 y (by omega), a4 x (by omega)]; exact jn_com hh _ _)
  obtain ⟨m4, c1, c2, c3, c4⟩ := m_three0 hx hy hz how how (n := 64) (Or.inl rfl) b2.1
  obtain ⟨m5, d1, d2, d3, d4⟩ := m_three1 hx hy hz how how (n := 65) (Or.inr rfl) c2.1
  have o2 : fX8_others m5 = some (0, m5) := others_0 d2.1 (by rw [d4 64 (by omega) (by omega), c3, d3, c4 x (by omega) (by omega), c4 y (by omega) (by omega), c4 z (by omega) (by omega)]; exact jn_assoc hh _ _ _)
  obtain ⟨m7, f1, f2, f3, f4⟩ := m_j x x how (c := 64) (by omega) d2.1
  obtain ⟨m8, g1, g2, g3, g4⟩ := m_copies x 65 f2.1
  have g5 : ∀ r, r ≠ 65 → mB m8 r = mB m7 r := fun r hr => by rw [g3]; exact zu_ne _ hr _
  have g6 : mB m8 65 = mB m7 x := by rw [g3]; exact zu_at _ _ _
  have o3 : fX8_others m8 = some (0, m8) := others_0 g2 (by rw [g5 64 (by omega), f3, g6, f4 x (by omega)]; exact jn_idem hh _)
  refine ⟨m8, ?_, mlf_trans a2 (mlf_trans b2 (mlf_trans c2 (mlf_trans d2 (mlf_trans f2 ⟨g2, g4, fun r hr => g5 r (by omega)⟩))))⟩
  unfold fX8_ordersAndBrackets
  simp only [a1, b1, o1, c1, d1, o2, f1, g1, o3, Option.bind_some]
  rfl
theorem m_parts {i o : Int32} (hh : i = 0 ∧ o = 1 ∨ i = 1 ∧ o = 0) {x y z : Nat} (hx : x < 64) (hy : y < 64) (hz : z < 64) {m : mS} (V : Vm m) : ∃ m', fX8_parts x y z o i m = some (0, m') ∧ mlf m m' := by
  obtain ⟨m1, a1, a2, a3, a4⟩ := m_three1 hx hy hz i o (n := 64) (Or.inl rfl) V
  obtain ⟨m2, b1, b2, b3, b4⟩ := m_j x y o (c := 65) (by omega) a2.1
  obtain ⟨m3, c1, c2, c3, c4⟩ := m_j x z o (c := 66) (by omega) b2.1
  obtain ⟨m4, d1, d2, d3, d4⟩ := m_j 65 66 i (c := 65) (by omega) c2.1
  have o1 : fX8_others m4 = some (0, m4) := others_0 d2.1 (by
    rw [d4 64 (by omega), c4 64 (by omega), b4 64 (by omega), a3, d3, c4 65 (by omega), b3, c3, b4 x (by omega), b4 z (by omega), a4 x (by omega) (by omega), a4 y (by omega) (by omega), a4 z (by omega) (by omega)]
    exact jn_dist hh _ _ _)
  refine ⟨m4, ?_, mlf_trans a2 (mlf_trans b2 (mlf_trans c2 d2))⟩
  unfold fX8_parts
  simp only [a1, b1, c1, d1, o1, Option.bind_some]
theorem m_within {x y : Nat} (hx : x < 64) (hy : y < 64) {m : mS} (V : Vm m) : ∃ m', fX8_within x y m = some (0, m') ∧ mlf m m' := by
  obtain ⟨m1, a1, a2, a3, a4⟩ := m_j x y 0 (c := 64) (by omega) V
  obtain ⟨m3, b1, b2, b3, b4⟩ := m_j x y 1 (c := 64) (by omega) a2.1
  refine ⟨m3, ?_, mlf_trans a2 b2⟩
  unfold fX8_within
  simp only [a1, b1, Option.bind_some, m_areSame _ _ a2.1, m_areSame _ _ b2.1, m_lies, a3, b3, a4 y (by omega), a4 x (by omega), b4 x (by omega), b4 y (by omega)]
  rw [← inn_or, ← inn_and, if_pos rfl, if_pos rfl]
theorem m_som {x y : Nat} (hx : x < 64) (hy : y < 64) {m : mS} (V : Vm m) : ∃ m', fX8_sizeOfMeet x y m = some (nI (sz (jn 1 (mB m x) (mB m y))), m') ∧ mlf m m' ∧ mB m' 65 = mB m 65 := by
  obtain ⟨m1, a1, a2, a3, a4⟩ := m_j x y 1 (c := 64) (by omega) V
  refine ⟨m1, ?_, a2, a4 65 (by omega)⟩
  unfold fX8_sizeOfMeet
  simp only [a1, Option.bind_some, m_sizeOf, a3]
theorem m_sizes {x y z : Nat} (hx : x < 64) (hy : y < 64) (hz : z < 64) {m : mS} (V : Vm m) : ∃ m', fX8_sizes x y z m = some (0, m') ∧ mlf m m' := by
  obtain ⟨m1, a1, a2, a3, a4⟩ := m_three0 hx hy hz 0 0 (n := 65) (Or.inr rfl) V
  obtain ⟨m5, b1, b2, b3⟩ := m_som hx hy a2.1
  obtain ⟨m6, c1, c2, c3⟩ := m_som hx hz b2.1
  obtain ⟨m7, d1, d2, d3⟩ := m_som hy hz c2.1
  obtain ⟨m8, f1, f2, f3, f4⟩ := m_j x y 1 (c := 64) (by omega) d2.1
  obtain ⟨m9, g1, g2, g3, g4⟩ := m_j 64 z 1 (c := 64) (by omega) f2.1
  have q1 : ∀ r, r < 64 → mB m1 r = mB m r := a2.2.2
  have q5 : ∀ r, r < 64 → mB m5 r = mB m r := fun r hr => (b2.2.2 r hr).trans (q1 r hr)
  have q6 : ∀ r, r < 64 → mB m6 r = mB m r := fun r hr => (c2.2.2 r hr).trans (q5 r hr)
  have q7 : ∀ r, r < 64 → mB m7 r = mB m r := fun r hr => (d2.2.2 r hr).trans (q6 r hr)
  have y64 : mB m9 64 = jn 1 (jn 1 (mB m x) (mB m y)) (mB m z) := by rw [g3, f3, f4 z (by omega), q7 x hx, q7 y hy, q7 z hz]
  have y65 : mB m9 65 = jn 0 (jn 0 (mB m x) (mB m y)) (mB m z) := by rw [g4 65 (by omega), f4 65 (by omega), d3, c3, b3, a3]
  refine ⟨m9, ?_, mlf_trans a2 (mlf_trans b2 (mlf_trans c2 (mlf_trans d2 (mlf_trans f2 g2))))⟩
  unfold fX8_sizes
  simp only [a1, b1, c1, d1, f1, g1, Option.bind_some, m_sizeOf, y64, y65, q1 x hx, q1 y hy, q1 z hz, q5 x hx, q5 z hz, q6 y hy, q6 z hz]
  rw [if_pos (size_id2 (ie_sz (mB m x) (mB m y) (mB m z)) (meet_le _ _ _))]
theorem m_laws {x y z : Nat} (hx : x < 8) (hy : y < 8) (hz : z < 8) {m : mS} (V : Vm m) : ∃ m', fX8_lawErrors (nI x) (nI y) (nI z) m = some (0, m') ∧ mlf (vI m 0 0) m' := by
  have lx : x < 64 := by omega
  have ly : y < 64 := by omega
  have lz : z < 64 := by omega
  obtain ⟨m6, a1, a2⟩ := m_orders (how := 0) (Or.inl rfl) lx ly lz (Vm_vI V 0 0)
  obtain ⟨m7, b1, b2⟩ := m_orders (how := 1) (Or.inr rfl) lx ly lz a2.1
  obtain ⟨m8, c1, c2⟩ := m_parts (i := 0) (o := 1) (Or.inl ⟨rfl, rfl⟩) lx ly lz b2.1
  obtain ⟨m9, d1, d2⟩ := m_parts (i := 1) (o := 0) (Or.inr ⟨rfl, rfl⟩) lx ly lz c2.1
  obtain ⟨m10, e1, e2, e3, e4⟩ := m_three1 lx ly lz 0 2 (n := 64) (Or.inl rfl) d2.1
  obtain ⟨m11, f1, f2, f3, f4⟩ := m_j x y 2 (c := 65) (by omega) e2.1
  obtain ⟨m12, g1, g2, g3, g4⟩ := m_j x z 2 (c := 66) (by omega) f2.1
  obtain ⟨m13, h1, h2, h3, h4⟩ := m_j 65 66 1 (c := 65) (by omega) g2.1
  have o1 : fX8_others m13 = some (0, m13) := others_0 h2.1 (by
    rw [h4 64 (by omega), g4 64 (by omega), f4 64 (by omega), e3, h3, g4 65 (by omega), f3, g3, f4 x (by omega), f4 z (by omega), e4 x (by omega) (by omega), e4 y (by omega) (by omega), e4 z (by omega) (by omega)]
    exact jn_dm (Or.inl ⟨rfl, rfl⟩) _ _ _)
  obtain ⟨m15, k1, k2⟩ := m_within lx ly h2.1
  obtain ⟨m16, l1, l2⟩ := m_sizes lx ly lz k2.1
  refine ⟨m16, ?_, mlf_trans a2 (mlf_trans b2 (mlf_trans c2 (mlf_trans d2 (mlf_trans e2 (mlf_trans f2 (mlf_trans g2 (mlf_trans h2 (mlf_trans k2 l2))))))))⟩
  unfold fX8_lawErrors
  simp only [(set_in hx).2, (set_in hy).2, (set_in hz).2, one_0, pass_0, Option.bind_some, vin8 hx, vin8 hy, vin8 hz, cl8 hx, cl8 hy, cl8 hz, if_true, a1, b1, c1, d1, e1, f1, g1, h1, o1, k1, l1]
  rfl
theorem mlf_meq {m m' : mS} (h : mlf m m') : meq m m' := ⟨fun r hr _ => h.2.2 r (by omega), mI_eq h.2.1 1, mI_eq h.2.1 3, mT_eq h.2.1⟩
theorem clf_aeq {s s' : cS} (h : clf s s') : aeq s s' := ⟨fun n hn => h.2.2 n (by omega), sI_eq h.2.1 0, sI_eq h.2.1 2, sT_eq h.2.1⟩
theorem g_lawErrors {a : cS} {m : mS} (h : Rel a m) (p q r : Int32) : Meets 1 2 (fX7_lawErrors p q r a) (fX8_lawErrors p q r m) := by
  rcases set_or p with ⟨i, hi, rfl⟩ | ⟨s1, s2⟩
  · rcases set_or q with ⟨j, hj, rfl⟩ | ⟨s1, s2⟩
    · rcases set_or r with ⟨k, hk, rfl⟩ | ⟨s1, s2⟩
      · obtain ⟨a', e1, e2⟩ := c_laws (a := i) (b := j) (c := k) (by omega) (by omega) (by omega) h.1
        obtain ⟨m', f1, f2⟩ := m_laws hi hj hk h.2.1
        refine Meets.ok (r := 0) (a' := a') (m' := m') ?_ f1 (mI_eq f2.2.1 0) (Rel_keep (Rel_v0 h 0) (clf_aeq e2) (mlf_meq f2) e2.1 f2.1)
        unfold fX7_lawErrors
        simp only [(set_in hi).1, (set_in hj).1, (set_in hk).1, Option.bind_some, Sum.elim_inr, if_pos (lt8 hi), if_pos (lt8 hj), if_pos (lt8 hk), e1]
      · refine Meets.e1 (r := 0) h ?_ ?_
        · unfold fX7_lawErrors
          simp only [(set_in hi).1, (set_in hj).1, s1, Option.bind_some, Sum.elim_inr, Sum.elim_inl, if_pos (lt8 hi), if_pos (lt8 hj)]
        · unfold fX8_lawErrors
          simp only [(set_in hi).2, (set_in hj).2, s2, one_0, pass_1, Option.bind_some, if_true]
    · refine Meets.e1 (r := 0) h ?_ ?_
      · unfold fX7_lawErrors
        simp only [(set_in hi).1, s1, Option.bind_some, Sum.elim_inr, Sum.elim_inl, if_pos (lt8 hi)]
      · unfold fX8_lawErrors
        simp only [(set_in hi).2, s2, one_0, pass_1, Option.bind_some, if_true]
  · refine Meets.e1 (r := 0) h ?_ ?_
    · unfold fX7_lawErrors
      simp only [s1, Option.bind_some, Sum.elim_inl]
    · unfold fX8_lawErrors
      simp only [s2, pass_1, Option.bind_some, if_true]
