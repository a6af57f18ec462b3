/-! ===== the family: finding, entering, leaving ===== -/
noncomputable def fi (f : Nat → BS) (x : BS) : Nat → Nat → Int32
  | 0, _ => -1
  | d + 1, k => if same (f k) x then nI k else fi f x d (k + 1)
theorem vin7 {i : Nat} (h : i < 7) : vin (nI i) 7 = true := vinI h (by decide)
theorem cl7 {i : Nat} (h : i < 7) : (nI i).toNatClampNeg = i := nI_clamp (by omega)
theorem same_self (x : BS) : same x x = true := pd_iff.mpr rfl
theorem same_ne {x y : BS} (h : x ≠ y) : same x y = false := ts_nt' (fun z => h (pd_iff.mp z))
theorem p_find_L {F p c : Nat} {s : cS} (hc : c ≤ 7) (hI : sI s F = nI c) : ∀ (d fuel k : Nat), k + d = c → d < fuel → fX0_find_L2 F p fuel (nI k) s = some (fi (fun j => cB s (8 + 8 * F + j)) (cB s p) d k, s) := by
  intro d
  induction d with
  | zero =>
    intro fuel k h hf
    obtain ⟨f, rfl⟩ : ∃ f, fuel = f + 1 := ⟨fuel - 1, by omega⟩
    rw [fX0_find_L2, hI, if_pos (nI_le (by omega) (by omega))]
    rfl
  | succ d ih =>
    intro fuel k h hf
    obtain ⟨f, rfl⟩ : ∃ f, fuel = f + 1 := ⟨fuel - 1, by omega⟩
    have hk : k < 7 := by omega
    rw [fX0_find_L2, hI, if_neg (nI_ge (by omega) (by omega)), if_pos (vin7 hk), cl7 hk, p_sameAs, if_bi, nI_1, ih f (k + 1) (by omega) (by omega)]
    rw [fi]
    cases same (cB s (8 + 8 * F + k)) (cB s p) <;> rfl
theorem p_find {F c : Nat} (p : Nat) {s : cS} (hc : c ≤ 7) (hI : sI s F = nI c) : fX0_find F p s = some (fi (fun j => cB s (8 + 8 * F + j)) (cB s p) c 0, s) := p_find_L hc hI c 1100 0 (by omega) (by omega)
theorem m_find_L {g r c : Nat} {m : mS} (V : Vm m) (hc : c ≤ 7) : ∀ (d fuel k : Nat), k + d = c → d < fuel → fX8_find_L2 g (nI c) r fuel (nI k) m = some (fi (fun j => mB m (9 + 7 * g + j)) (mB m r) d k, m) := by
  intro d
  induction d with
  | zero =>
    intro fuel k h hf
    obtain ⟨f, rfl⟩ : ∃ f, fuel = f + 1 := ⟨fuel - 1, by omega⟩
    rw [fX8_find_L2, if_pos (nI_le (by omega) (by omega))]
    rfl
  | succ d ih =>
    intro fuel k h hf
    obtain ⟨f, rfl⟩ : ∃ f, fuel = f + 1 := ⟨fuel - 1, by omega⟩
    have hk : k < 7 := by omega
    rw [fX8_find_L2, if_neg (nI_ge (by omega) (by omega)), if_pos (vin7 hk), cl7 hk, m_areSame _ _ V, nI_1]
    simp only [Option.bind_some, if_bi]
    rw [ih f (k + 1) (by omega) (by omega), fi]
    cases same (mB m (9 + 7 * g + k)) (mB m r) <;> rfl
theorem m_find (g : Nat) {c : Nat} (r : Nat) {m : mS} (V : Vm m) (hc : c ≤ 7) : fX8_find g (nI c) r m = some (fi (fun j => mB m (9 + 7 * g + j)) (mB m r) c 0, m) := m_find_L V hc c 1100 0 (by omega) (by omega)
theorem fi_cong {f g : Nat → BS} {x : BS} : ∀ (d k : Nat), (∀ j, k ≤ j → j < k + d → f j = g j) → fi f x d k = fi g x d k := by
  intro d
  induction d with
  | zero => intro k _; rfl
  | succ d ih =>
    intro k h
    rw [fi, fi, h k (Nat.le_refl _) (by omega), ih (k + 1) (fun j h1 h2 => h j (by omega) (by omega))]
theorem fi_cases (f : Nat → BS) (x : BS) : ∀ (d k : Nat), (fi f x d k = -1 ∧ ∀ j, k ≤ j → j < k + d → f j ≠ x) ∨ ∃ j, k ≤ j ∧ j < k + d ∧ fi f x d k = nI j ∧ f j = x := by
  intro d
  induction d with
  | zero => intro k; exact Or.inl ⟨rfl, fun j h1 h2 => by omega⟩
  | succ d ih =>
    intro k
    rw [fi]
    by_cases e : f k = x
    · rw [e, same_self, if_pos rfl]
      exact Or.inr ⟨k, Nat.le_refl _, by omega, rfl, e⟩
    · rw [same_ne e, if_neg (fun z => Bool.noConfusion z)]
      rcases ih (k + 1) with ⟨h1, h2⟩ | ⟨j, h1, h2, h3, h4⟩
      · exact Or.inl ⟨h1, fun j a b => if q : j = k then q ▸ e else h2 j (by omega) (by omega)⟩
      · exact Or.inr ⟨j, by omega, by omega, h3, h4⟩
/-- where a set goes into a row of sets -/
noncomputable def ip (f : Nat → BS) (x : BS) : Nat → Nat
  | 0 => 0
  | n + 1 => if ahead x (f n) then ip f x n else n + 1
theorem ip_le (f : Nat → BS) (x : BS) : ∀ n, ip f x n ≤ n
  | 0 => Nat.le_refl _
  | n + 1 => by
    have := ip_le f x n
    rw [ip]
    split <;> omega
theorem ip_cong {f g : Nat → BS} {x : BS} : ∀ {n : Nat}, (∀ j, j < n → f j = g j) → ip f x n = ip g x n
  | 0, _ => rfl
  | n + 1, h => by rw [ip, ip, h n (by omega), ip_cong (fun j hj => h j (by omega))]
noncomputable def ins (f : Nat → BS) (x : BS) (c : Nat) : Nat → BS := fun j => if j < ip f x c then f j else if j = ip f x c then x else f (j - 1)
theorem ins_cong {f g : Nat → BS} {x : BS} {c j : Nat} (h : ∀ j, j < c → f j = g j) (hj : j ≤ c) : ins f x c j = ins g x c j := by
  unfold ins
  rw [ip_cong h]
  have := ip_le g x c
  by_cases a : j < ip g x c
  · rw [if_pos a, if_pos a, h j (by omega)]
  · rw [if_neg a, if_neg a]
    by_cases b : j = ip g x c
    · rw [if_pos b, if_pos b]
    · rw [if_neg b, if_neg b, h (j - 1) (by omega)]
theorem p_enter_L {F p c : Nat} (hp : p < 8 + 8 * F ∨ 15 + 8 * F ≤ p) (hc : c < 7) (f : Nat → BS) (x : BS) (k0 : Int32 → cS → Option (Int32 × cS)) : ∀ (q fuel : Nat) (s : cS), q < fuel → q ≤ c → Wf s → cB s p = x → (∀ j, j < q → cB s (8 + 8 * F + j) = f j) → (∀ j, q < j → j ≤ c → cB s (8 + 8 * F + j) = f (j - 1)) → ∃ s', fX0_enter_L27 F p k0 fuel (nI q) s = k0 (nI (ip f x q)) s' ∧ Wf s' ∧ cB s' p = x ∧ (∀ j, j < ip f x q → cB s' (8 + 8 * F + j) = f j) ∧ (∀ j, ip f x q < j → j ≤ c → cB s' (8 + 8 * F + j) = f (j - 1)) ∧ (∀ n, n < 8 + 8 * F ∨ 15 + 8 * F ≤ n → cB s' n = cB s n) ∧ s'.2.2 = s.2.2 := by
  intro q
  induction q with
  | zero =>
    intro fuel s hf hq W hx h1 h2
    obtain ⟨l, rfl⟩ : ∃ l, fuel = l + 1 := ⟨fuel - 1, by omega⟩
    rw [fX0_enter_L27, if_pos (show nI 0 ≤ 0 from by decide)]
    exact ⟨s, rfl, W, hx, h1, h2, fun _ _ => rfl, rfl⟩
  | succ q ih =>
    intro fuel s hf hq W hx h1 h2
    obtain ⟨l, rfl⟩ : ∃ l, fuel = l + 1 := ⟨fuel - 1, by omega⟩
    have q7 : q < 7 := by omega
    rw [fX0_enter_L27, if_neg (nI_nle (by omega) (by omega)), nI_pred, if_pos (vin7 q7), cl7 q7, p_comesBefore, if_bi, hx, h1 q (by omega), pk_m1]
    rw [ip]
    cases e : ahead x (f q)
    · rw [if_neg (fun z => Bool.noConfusion z), if_neg (fun z => Bool.noConfusion z)]
      exact ⟨s, rfl, W, hx, h1, h2, fun _ _ => rfl, rfl⟩
    · rw [if_pos rfl, if_pos rfl, if_pos (vin7 (show q + 1 < 7 by omega)), if_pos (vin7 q7), cl7 (show q + 1 < 7 by omega)]
      obtain ⟨s1, e1, e2, e3⟩ := p_become (8 + 8 * F + (q + 1)) (8 + 8 * F + q) s
      rw [e1]
      simp only [Option.bind_some]
      obtain ⟨s', r1, r2, r3, r4, r5, r6, r7⟩ := ih l s1 (by omega) (by omega) (Wf_up W (W _) e2) (by rw [e2, zu_ne _ (by omega), hx]) (fun j hj => by rw [e2, zu_ne _ (by omega), h1 j (by omega)]) (fun j j1 j2 => by
        rw [e2]
        by_cases z : j = q + 1
        · rw [z, zu_at, h1 q (by omega)]
          rfl
        · rw [zu_ne _ (by omega), h2 j (by omega) j2])
      exact ⟨s', r1, r2, r3, r4, r5, fun n hn => by rw [r6 n hn, e2, zu_ne _ (by omega)], r7.trans e3⟩
theorem sI_eq {s s' : cS} (h : s'.2.2 = s.2.2) (k : Nat) : sI s' k = sI s k := by unfold sI; rw [h]
theorem sT_eq {s s' : cS} (h : s'.2.2 = s.2.2) : sT s' = sT s := by unfold sT; rw [h]
theorem p_enter {F p c : Nat} (hp : p < 8 + 8 * F ∨ 15 + 8 * F ≤ p) (hc : c ≤ 7) {s : cS} (W : Wf s) (hI : sI s F = nI c) : (fi (fun j => cB s (8 + 8 * F + j)) (cB s p) c 0 ≠ -1 ∧ fX0_enter F p s = some (1, s)) ∨ (fi (fun j => cB s (8 + 8 * F + j)) (cB s p) c 0 = -1 ∧ c = 7 ∧ fX0_enter F p s = some (0, s)) ∨ (fi (fun j => cB s (8 + 8 * F + j)) (cB s p) c 0 = -1 ∧ c < 7 ∧ ∃ s', fX0_enter F p s = some (1, s') ∧ Wf s' ∧ (∀ j, j ≤ c → cB s' (8 + 8 * F + j) = ins (fun j => cB s (8 + 8 * F + j)) (cB s p) c j) ∧ (∀ n, n < 8 + 8 * F ∨ 15 + 8 * F ≤ n → cB s' n = cB s n) ∧ (∀ k, sI s' k = if k = F then nI (c + 1) else sI s k) ∧ sT s' = sT s) := by
  unfold fX0_enter
  rw [p_find p hc hI]
  simp only [Option.bind_some]
  by_cases e : fi (fun j => cB s (8 + 8 * F + j)) (cB s p) c 0 = -1
  · right
    rw [if_pos e, hI]
    by_cases g : c < 7
    · right
      rw [if_pos (show nI c < 7 from nI_lt (b := 7) g (by decide))]
      refine ⟨e, g, ?_⟩
      obtain ⟨s1, r1, r2, r3, r4, r5, r6, r7⟩ := p_enter_L hp g (fun j => cB s (8 + 8 * F + j)) (cB s p) (fun y2_7 s7 => if vin y2_7 7 = true then ((fX2_become (8 + 8 * F + y2_7.toNatClampNeg) p s7).bind (fun s9 => some ((1, uI s9 F ((sI s9 F) + 1))))) else none) c 1100 s (by omega) (Nat.le_refl _) W rfl (fun j _ => rfl) (fun j a b => by omega)
      have il := ip_le (fun j => cB s (8 + 8 * F + j)) (cB s p) c
      obtain ⟨s2, e1, e2, e3⟩ := p_become (8 + 8 * F + ip (fun j => cB s (8 + 8 * F + j)) (cB s p) c) p s1
      rw [r3] at e2
      refine ⟨uI s2 F (sI s2 F + 1), ?_, ?_, fun j hj => ?_, fun n hn => ?_, fun k => ?_, ?_⟩
      · refine r1.trans ?_
        simp only [vin7 (show ip (fun j => cB s (8 + 8 * F + j)) (cB s p) c < 7 by omega), cl7 (show ip (fun j => cB s (8 + 8 * F + j)) (cB s p) c < 7 by omega), if_true, e1, Option.bind_some]
      · exact Wf_up r2 (W p) e2
      · rw [cB_uI, e2]
        unfold ins
        by_cases a : j < ip (fun j => cB s (8 + 8 * F + j)) (cB s p) c
        · rw [if_pos a, zu_ne _ (by omega)]
          exact r4 j a
        · rw [if_neg a]
          by_cases b : j = ip (fun j => cB s (8 + 8 * F + j)) (cB s p) c
          · rw [if_pos b, b, zu_at]
          · rw [if_neg b, zu_ne _ (by omega)]
            exact r5 j (by omega) hj
      · rw [cB_uI, e2, zu_ne _ (by omega)]
        exact r6 n hn
      · rw [b_sI_uI]
        by_cases a : k = F
        · rw [if_pos a, if_pos a, sI_eq e3, sI_eq r7, hI, nI_1]
        · rw [if_neg a, if_neg a, sI_eq e3, sI_eq r7]
      · exact (sT_eq e3).trans (sT_eq r7)
    · left
      rw [if_neg (show ¬ nI c < 7 from nI_nlt (a := c) (b := 7) (by omega) (by omega))]
      exact ⟨e, by omega, rfl⟩
  · left
    rw [if_neg e]
    exact ⟨e, rfl⟩
theorem m_inserts_L {g r c : Nat} (hr : r < 9 + 7 * g ∨ 16 + 7 * g ≤ r) (hc : c < 7) (f : Nat → BS) (x : BS) (k0 : Int32 → mS → Option mS) : ∀ (q fuel : Nat) (m : mS), q < fuel → q ≤ c → Vm m → mB m r = x → (∀ j, j < q → mB m (9 + 7 * g + j) = f j) → (∀ j, q < j → j ≤ c → mB m (9 + 7 * g + j) = f (j - 1)) → ∃ m', fX8_inserts_L2 g r k0 fuel (nI q) m = k0 (nI (ip f x q)) m' ∧ Vm m' ∧ mB m' r = x ∧ (∀ j, j < ip f x q → mB m' (9 + 7 * g + j) = f j) ∧ (∀ j, ip f x q < j → j ≤ c → mB m' (9 + 7 * g + j) = f (j - 1)) ∧ (∀ n, n < 9 + 7 * g ∨ 16 + 7 * g ≤ n → mB m' n = mB m n) ∧ m'.2 = m.2 := by
  intro q
  induction q with
  | zero =>
    intro fuel m hf hq V hx h1 h2
    obtain ⟨l, rfl⟩ : ∃ l, fuel = l + 1 := ⟨fuel - 1, by omega⟩
    rw [fX8_inserts_L2, if_pos (show nI 0 ≤ 0 from by decide)]
    exact ⟨m, rfl, V, hx, h1, h2, fun _ _ => rfl, rfl⟩
  | succ q ih =>
    intro fuel m hf hq V hx h1 h2
    obtain ⟨l, rfl⟩ : ∃ l, fuel = l + 1 := ⟨fuel - 1, by omega⟩
    have q7 : q < 7 := by omega
    rw [fX8_inserts_L2, if_neg (nI_nle (by omega) (by omega)), nI_pred, if_pos (vin7 q7), cl7 q7, m_isAhead _ _ V, hx, h1 q (by omega), pk_m1]
    simp only [Option.bind_some, if_bi]
    rw [ip]
    cases e : ahead x (f q)
    · rw [if_neg (fun z => Bool.noConfusion z), if_neg (fun z => Bool.noConfusion z)]
      exact ⟨m, rfl, V, hx, h1, h2, fun _ _ => rfl, rfl⟩
    · rw [if_pos rfl, if_pos rfl, if_pos (vin7 q7), if_pos (vin7 (show q + 1 < 7 by omega)), cl7 (show q + 1 < 7 by omega)]
      obtain ⟨m1, e1, e2, e3, e4⟩ := m_copies (9 + 7 * g + q) (9 + 7 * g + (q + 1)) V
      rw [e1]
      simp only [Option.bind_some]
      obtain ⟨m', r1, r2, r3, r4, r5, r6, r7⟩ := ih l m1 (by omega) (by omega) e2 (by rw [e3, zu_ne _ (by omega), hx]) (fun j hj => by rw [e3, zu_ne _ (by omega), h1 j (by omega)]) (fun j j1 j2 => by
        rw [e3]
        by_cases z : j = q + 1
        · rw [z, zu_at, h1 q (by omega)]
          rfl
        · rw [zu_ne _ (by omega), h2 j (by omega) j2])
      exact ⟨m', r1, r2, r3, r4, r5, fun n hn => by rw [r6 n hn, e3, zu_ne _ (by omega)], r7.trans e4⟩
theorem m_inserts (g : Nat) {r c : Nat} (hr : r < 9 + 7 * g ∨ 16 + 7 * g ≤ r) (hc : c < 7) {m : mS} (V : Vm m) : ∃ m', fX8_inserts g (nI c) r m = some m' ∧ Vm m' ∧ (∀ j, j ≤ c → mB m' (9 + 7 * g + j) = ins (fun j => mB m (9 + 7 * g + j)) (mB m r) c j) ∧ (∀ n, n < 9 + 7 * g ∨ 16 + 7 * g ≤ n → mB m' n = mB m n) ∧ m'.2 = m.2 := by
  unfold fX8_inserts
  obtain ⟨m1, r1, r2, r3, r4, r5, r6, r7⟩ := m_inserts_L hr hc (fun j => mB m (9 + 7 * g + j)) (mB m r) (fun y3_6 s6 => if vin y3_6 7 = true then ((fX8_copies r (9 + 7 * g + y3_6.toNatClampNeg) s6).bind (fun s8 => some (s8))) else none) c 1100 m (by omega) (Nat.le_refl _) V rfl (fun j _ => rfl) (fun j a b => by omega)
  have il := ip_le (fun j => mB m (9 + 7 * g + j)) (mB m r) c
  obtain ⟨m2, e1, e2, e3, e4⟩ := m_copies r (9 + 7 * g + ip (fun j => mB m (9 + 7 * g + j)) (mB m r) c) r2
  rw [r3] at e3
  refine ⟨m2, ?_, e2, fun j hj => ?_, fun n hn => ?_, e4.trans r7⟩
  · refine r1.trans ?_
    simp only [vin7 (show ip (fun j => mB m (9 + 7 * g + j)) (mB m r) c < 7 by omega), cl7 (show ip (fun j => mB m (9 + 7 * g + j)) (mB m r) c < 7 by omega), if_true, e1, Option.bind_some]
  · rw [e3]
    unfold ins
    by_cases a : j < ip (fun j => mB m (9 + 7 * g + j)) (mB m r) c
    · rw [if_pos a, zu_ne _ (by omega)]
      exact r4 j a
    · rw [if_neg a]
      by_cases b : j = ip (fun j => mB m (9 + 7 * g + j)) (mB m r) c
      · rw [if_pos b, b, zu_at]
      · rw [if_neg b, zu_ne _ (by omega)]
        exact r5 j (by omega) hj
  · rw [e3, zu_ne _ (by omega)]
    exact r6 n hn
/-! calls -/
/-- the two finds say the same -/
theorem find_eq {a : cS} {m : mS} (h : Rel a m) {i : Nat} (hi : i < 8) {c : Nat} (hc : c ≤ 7) (f1 : sI a 0 = nI c) (f3 : ∀ j, j < c → cB a (8 + j) = mB m (9 + j)) : fX0_find 0 i a = some (fi (fun j => cB a (8 + 8 * 0 + j)) (cB a i) c 0, a) ∧ ∀ v, fX8_find 0 (nI c) i (vI m 0 v) = some (fi (fun j => cB a (8 + 8 * 0 + j)) (cB a i) c 0, vI m 0 v) := by
  refine ⟨p_find i hc f1, fun v => ?_⟩
  rw [m_find 0 i (Vm_vI h.2.1 0 v) hc, mB_vI, ← h.2.2.1 i hi]
  refine congrArg (fun z => some (z, vI m 0 v)) (fi_cong c 0 (fun j _ hj => ?_))
  have := f3 j (by omega)
  show mB m (9 + 7 * 0 + j) = cB a (8 + 8 * 0 + j)
  rw [show 9 + 7 * 0 + j = 9 + j from by omega, show 8 + 8 * 0 + j = 8 + j from by omega, this]
theorem vI_0 (m : mS) : vI m 0 (mI m 0) = m := by
  unfold vI mI
  rw [show va_up m.2.1 0 (m.2.1 0) = m.2.1 from zu_self _ _]
theorem g_isKept {a : cS} {m : mS} {ee : Nat} (h : Rel a m) (p : Int32) : Meets 1 ee (fX7_isKept p a) (fX8_isKept p m) := by
  rcases set_or p with ⟨i, hi, rfl⟩ | ⟨s1, s2⟩
  · obtain ⟨s1, s2⟩ := set_in hi
    obtain ⟨c, hc, f1, f2, f3⟩ := h.2.2.2.1
    obtain ⟨e1, e2⟩ := find_eq h hi hc f1 f3
    refine Meets.ok (r := if fi (fun j => cB a (8 + 8 * 0 + j)) (cB a i) c 0 = -1 then 0 else 1) (a' := a) (m' := vI m 0 0) ?_ ?_ rfl (Rel_v0 h 0)
    · unfold fX7_isKept
      simp only [s1, Option.bind_some, Sum.elim_inr, if_pos (lt8 hi), e1]
      split <;> rfl
    · unfold fX8_isKept
      have e : mI (vI m 0 0) 1 = nI c := f2
      simp only [s2, pass_0, Option.bind_some, one_0, vin8 hi, cl8 hi, if_true, e, e2]
      split <;> rfl
  · refine Meets.e1 (r := 0) h ?_ ?_
    · unfold fX7_isKept
      simp only [s1, Option.bind_some, Sum.elim_inl]
    · unfold fX8_isKept
      simp only [s2, pass_1, Option.bind_some, if_true]
theorem g_placeOf {a : cS} {m : mS} {ee : Nat} (h : Rel a m) (p : Int32) : Meets 1 ee (fX7_placeOf p a) (fX8_placeOf p m) := by
  rcases set_or p with ⟨i, hi, rfl⟩ | ⟨s1, s2⟩
  · obtain ⟨s1, s2⟩ := set_in hi
    obtain ⟨c, hc, f1, f2, f3⟩ := h.2.2.2.1
    obtain ⟨e1, e2⟩ := find_eq h hi hc f1 f3
    refine Meets.ok (r := fi (fun j => cB a (8 + 8 * 0 + j)) (cB a i) c 0) (a' := a) (m' := vI m 0 0) ?_ ?_ rfl (Rel_v0 h 0)
    · unfold fX7_placeOf
      simp only [s1, Option.bind_some, Sum.elim_inr, if_pos (lt8 hi), e1]
    · unfold fX8_placeOf
      have e : mI (vI m 0 0) 1 = nI c := f2
      simp only [s2, pass_0, Option.bind_some, one_0, vin8 hi, cl8 hi, if_true, e, e2]
  · refine Meets.e1 (r := 0) h ?_ ?_
    · unfold fX7_placeOf
      simp only [s1, Option.bind_some, Sum.elim_inl]
    · unfold fX8_placeOf
      simp only [s2, pass_1, Option.bind_some, if_true]
theorem g_keep {a : cS} {m : mS} (h : Rel a m) (p : Int32) : Meets 1 4 (fX7_keep p a) (fX8_keep p m) := by
  rcases set_or p with ⟨i, hi, rfl⟩ | ⟨s1, s2⟩
  · obtain ⟨s1, s2⟩ := set_in hi
    obtain ⟨W, V, hs, ⟨c, hc, f1, f2, f3⟩, ht⟩ := h
    have h : Rel a m := ⟨W, V, hs, ⟨c, hc, f1, f2, f3⟩, ht⟩
    obtain ⟨e1, e2'⟩ := find_eq h hi hc f1 f3
    have e2 := e2' (mI m 0)
    rw [vI_0] at e2
    unfold fX7_keep fX8_keep
    simp only [s1, s2, Option.bind_some, Sum.elim_inr, if_pos (lt8 hi), e1, one_0, vin8 hi, cl8 hi, if_true, f2, e2]
    rcases p_enter (F := 0) (p := i) (c := c) (Or.inl (by omega)) hc W f1 with ⟨q1, q2⟩ | ⟨q1, q2, q3⟩ | ⟨q1, q2, a', q3, q4, q5, q6, q7, q8⟩
    · rw [if_neg q1, if_neg q1]
      refine Meets.ok (r := 0) (a' := a) (m' := vI m 0 0) rfl ?_ rfl (Rel_v0 h 0)
      simp only [pass_0, Option.bind_some, one_0]
    · rw [if_pos q1, if_pos q1, q3]
      refine Meets.e2 (r := 0) h rfl ?_
      rw [if_pos (show (7 : Int32) ≤ nI c from nI_le (a := 7) (by omega) (by omega))]
      simp only [pass_2, Option.bind_some, if_true]
    · rw [if_pos q1, if_pos q1, q3]
      obtain ⟨m', k1, k2, k3, k4, k5⟩ := m_inserts 0 (r := i) (c := c) (Or.inl (by omega)) q2 (Vm_vI V 0 0)
      have e : mI (vI m 0 0) 1 = nI c := f2
      refine Meets.ok (r := 1) (a' := a') (m' := vI m' 1 (mI m' 1 + 1)) rfl ?_ ?_ ?_
      · rw [if_neg (show ¬ (7 : Int32) ≤ nI c from nI_ge (b := 7) (by omega) (by omega))]
        simp only [pass_0, Option.bind_some, one_0, e, k1]
      · rw [b_mI_vI, if_neg (by decide)]
        exact mI_eq k5 0
      · refine ⟨q4, k2, fun n hn => ?_, ⟨c + 1, by omega, ?_, ?_, fun j hj => ?_⟩, ?_⟩
        · rw [q6 n (Or.inl (by omega)), mB_vI, k4 n (Or.inl (by omega)), mB_vI]
          exact hs n hn
        · rw [q7 0, if_pos rfl]
        · rw [b_mI_vI, if_pos rfl, mI_eq k5, e, nI_1]
        · have x1 := q5 j (by omega)
          have x2 := k3 j (by omega)
          rw [show 8 + 8 * 0 + j = 8 + j from by omega] at x1
          rw [show 9 + 7 * 0 + j = 9 + j from by omega] at x2
          rw [mB_vI, x1, x2, mB_vI, hs i hi]
          refine ins_cong (fun l hl => ?_) (by omega)
          have := f3 l hl
          rw [show 8 + 8 * 0 + l = 8 + l from by omega, show 9 + 7 * 0 + l = 9 + l from by omega, this]
        · obtain ⟨L, hL, t1, t2, t3⟩ := ht
          refine ⟨L, hL, ?_, ?_, fun k hk => ?_⟩
          · rw [q7 2, if_neg (by decide)]
            exact t1
          · rw [b_mI_vI, if_neg (by decide), mI_eq k5]
            exact t2
          · rw [q8, b_mT_vI, mT_eq (m := vI m 0 0) k5]
            exact t3 k hk
  · refine Meets.e1 (r := 0) h ?_ ?_
    · unfold fX7_keep
      simp only [s1, Option.bind_some, Sum.elim_inl]
    · unfold fX8_keep
      simp only [s2, pass_1, Option.bind_some, if_true]
/-! ===== the family: leaving, sums, taking ===== -/
def del (f : Nat → BS) (q : Nat) : Nat → BS := fun j => if j < q then f j else f (j + 1)
theorem p_leave_L {F c q : Nat} (hc : c ≤ 7) (f : Nat → BS) (k0 : cS → Option (Int32 × cS)) : ∀ (d fuel k : Nat) (s : cS), k + d = c → q + 1 ≤ k → d < fuel → Wf s → sI s F = nI c → (∀ j, j + 1 < k → cB s (8 + 8 * F + j) = del f q j) → (∀ j, k ≤ j + 1 → j < c → cB s (8 + 8 * F + j) = f j) → ∃ s', fX0_leave_L17 F k0 fuel (nI k) s = k0 s' ∧ Wf s' ∧ (∀ j, j + 1 < c → cB s' (8 + 8 * F + j) = del f q j) ∧ (∀ n, n < 8 + 8 * F ∨ 15 + 8 * F ≤ n → cB s' n = cB s n) ∧ s'.2.2 = s.2.2 := by
  intro d
  induction d with
  | zero =>
    intro fuel k s h hq hf W hI h1 h2
    obtain ⟨l, rfl⟩ : ∃ l, fuel = l + 1 := ⟨fuel - 1, by omega⟩
    rw [fX0_leave_L17, hI, if_pos (nI_le (by omega) (by omega))]
    exact ⟨s, rfl, W, fun j hj => h1 j (by omega), fun _ _ => rfl, rfl⟩
  | succ d ih =>
    intro fuel k s h hq hf W hI h1 h2
    obtain ⟨l, rfl⟩ : ∃ l, fuel = l + 1 := ⟨fuel - 1, by omega⟩
    obtain ⟨k, rfl⟩ : ∃ k', k = k' + 1 := ⟨k - 1, by omega⟩
    have k7 : k < 7 := by omega
    have k17 : k + 1 < 7 := by omega
    rw [fX0_leave_L17, hI, if_neg (nI_ge (by omega) (by omega)), nI_pred, if_pos (vin7 k7), if_pos (vin7 k17), cl7 k7, cl7 k17, nI_1]
    obtain ⟨s1, e1, e2, e3⟩ := p_become (8 + 8 * F + k) (8 + 8 * F + (k + 1)) s
    rw [e1]
    simp only [Option.bind_some]
    rw [h2 (k + 1) (by omega) (by omega)] at e2
    obtain ⟨s', r1, r2, r3, r4, r5⟩ := ih l (k + 1 + 1) s1 (by omega) (by omega) (by omega) (Wf_up W (by rw [← h2 (k + 1) (by omega) (by omega)]; exact W _) e2) ((sI_eq e3 F).trans hI) (fun j hj => by
      rw [e2]
      by_cases z : j = k
      · rw [z, zu_at]
        unfold del
        rw [if_neg (by omega)]
      · rw [zu_ne _ (by omega)]
        exact h1 j (by omega)) (fun j j1 j2 => by
      rw [e2, zu_ne _ (by omega)]
      exact h2 j (by omega) j2)
    exact ⟨s', r1, r2, r3, fun n hn => by rw [r4 n hn, e2, zu_ne _ (by omega)], r5.trans e3⟩
theorem m_drop_L {c q : Nat} (hc : c ≤ 7) (f : Nat → BS) : ∀ (d fuel k : Nat) (m : mS), k + 1 + d = c → q ≤ k → d < fuel → Vm m → mI m 1 = nI (c - 1) → (∀ j, j < k → mB m (9 + j) = del f q j) → (∀ j, k ≤ j → j < c → mB m (9 + j) = f j) → ∃ m', fX8_drop_L51 fuel (nI k) m = some (1, m') ∧ Vm m' ∧ (∀ j, j + 1 < c → mB m' (9 + j) = del f q j) ∧ (∀ n, n < 9 ∨ 16 ≤ n → mB m' n = mB m n) ∧ m'.2 = m.2 := by
  intro d
  induction d with
  | zero =>
    intro fuel k m h hq hf V hI h1 h2
    obtain ⟨l, rfl⟩ : ∃ l, fuel = l + 1 := ⟨fuel - 1, by omega⟩
    rw [fX8_drop_L51, hI, if_pos (nI_le (by omega) (by omega))]
    exact ⟨m, rfl, V, fun j hj => h1 j (by omega), fun _ _ => rfl, rfl⟩
  | succ d ih =>
    intro fuel k m h hq hf V hI h1 h2
    obtain ⟨l, rfl⟩ : ∃ l, fuel = l + 1 := ⟨fuel - 1, by omega⟩
    have k7 : k < 7 := by omega
    have k17 : k + 1 < 7 := by omega
    rw [fX8_drop_L51, hI, if_neg (nI_ge (by omega) (by omega)), nI_1, if_pos (vin7 k17), if_pos (vin7 k7), cl7 k7, cl7 k17]
    obtain ⟨m1, e1, e2, e3, e4⟩ := m_copies (9 + 7 * 0 + (k + 1)) (9 + 7 * 0 + k) V
    rw [e1]
    simp only [Option.bind_some]
    rw [show 9 + 7 * 0 + (k + 1) = 9 + (k + 1) from by omega, show 9 + 7 * 0 + k = 9 + k from by omega, h2 (k + 1) (by omega) (by omega)] at e3
    obtain ⟨m', r1, r2, r3, r4, r5⟩ := ih l (k + 1) m1 (by omega) (by omega) (by omega) e2 ((mI_eq e4 1).trans hI) (fun j hj => by
      rw [e3]
      by_cases z : j = k
      · rw [z, zu_at]
        unfold del
        rw [if_neg (by omega)]
      · rw [zu_ne _ (by omega)]
        exact h1 j (by omega)) (fun j j1 j2 => by
      rw [e3, zu_ne _ (by omega)]
      exact h2 j (by omega) j2)
    exact ⟨m', r1, r2, r3, fun n hn => by rw [r4 n hn, e3, zu_ne _ (by omega)], r5.trans e4⟩
theorem g_drop {a : cS} {m : mS} {ee : Nat} (h : Rel a m) (p : Int32) : Meets 1 ee (fX7_drop p a) (fX8_drop p m) := by
  rcases set_or p with ⟨i, hi, rfl⟩ | ⟨s1, s2⟩
  · obtain ⟨s1, s2⟩ := set_in hi
    obtain ⟨W, V, hs, ⟨c, hc, f1, f2, f3⟩, ht⟩ := h
    have h : Rel a m := ⟨W, V, hs, ⟨c, hc, f1, f2, f3⟩, ht⟩
    obtain ⟨e1, e2⟩ := find_eq h hi hc f1 f3
    have e : mI (vI m 0 0) 1 = nI c := f2
    unfold fX7_drop fX8_drop fX0_leave
    simp only [s1, s2, Option.bind_some, Sum.elim_inr, if_pos (lt8 hi), e1, one_0, vin8 hi, cl8 hi, if_true, pass_0, e, e2]
    rcases fi_cases (fun j => cB a (8 + 8 * 0 + j)) (cB a i) c 0 with ⟨q1, q2⟩ | ⟨q, q1, q2, q3, q4⟩
    · rw [if_pos q1, if_pos q1]
      exact Meets.ok (r := 0) (a' := a) (m' := vI m 0 0) rfl rfl rfl (Rel_v0 h 0)
    · have qm : ¬ nI q = -1 := nI_m1 (by omega)
      rw [q3, if_neg qm, if_neg qm, nI_1]
      obtain ⟨a', r1, r2, r3, r4, r5⟩ := p_leave_L (F := 0) (c := c) (q := q) hc (fun j => cB a (8 + 8 * 0 + j)) (fun s5 => some ((1, uI s5 0 ((sI s5 0) - 1)))) (c - (q + 1)) 1100 (q + 1) a (by omega) (Nat.le_refl _) (by omega) W f1 (fun j hj => by unfold del; rw [if_pos (by omega)]) (fun j _ _ => rfl)
      have ec : nI c - 1 = nI (c - 1) := by
        rw [show c = (c - 1) + 1 from by omega, nI_pred]
        rfl
      obtain ⟨m', k1, k2, k3, k4, k5⟩ := m_drop_L (c := c) (q := q) hc (fun j => cB a (8 + 8 * 0 + j)) (c - (q + 1)) 1100 q (vI (vI m 0 0) 1 (nI c - 1)) (by omega) (Nat.le_refl _) (by omega) V (by rw [b_mI_vI, if_pos rfl, ec]) (fun j hj => by
          unfold del
          rw [if_pos hj, mB_vI, mB_vI, ← f3 j (by omega)]) (fun j _ hj => by
          rw [mB_vI, mB_vI, ← f3 j hj])
      rw [r1, k1]
      refine Meets.ok (r := 1) (a' := uI a' 0 (sI a' 0 - 1)) (m' := m') rfl rfl ?_ ?_
      · rw [mI_eq k5]
        rfl
      · refine ⟨r2, k2, fun n hn => ?_, ⟨c - 1, by omega, ?_, ?_, fun j hj => ?_⟩, ?_⟩
        · rw [cB_uI, r4 n (Or.inl (by omega)), k4 n (Or.inl (by omega))]
          exact hs n hn
        · rw [sI_at, sI_eq r5, f1, ec]
        · rw [mI_eq k5, b_mI_vI, if_pos rfl, ec]
        · have x1 := r3 j (by omega)
          rw [show 8 + 8 * 0 + j = 8 + j from by omega] at x1
          rw [cB_uI, x1, k3 j (by omega)]
        · obtain ⟨L, hL, t1, t2, t3⟩ := ht
          refine ⟨L, hL, ?_, ?_, fun k hk => ?_⟩
          · rw [sI_ne _ (by decide), sI_eq r5]
            exact t1
          · rw [mI_eq k5, b_mI_vI, if_neg (by decide), b_mI_vI, if_neg (by decide)]
            exact t2
          · rw [mT_eq (m := vI (vI m 0 0) 1 (nI c - 1)) k5, b_mT_vI, b_mT_vI]
            have := sT_eq r5
            show ∃ b, 0 < b ∧ b < 256 ∧ sT a' k = nI b ∧ mT m k = nI b
            rw [this]
            exact t3 k hk
  · refine Meets.e1 (r := 0) h ?_ ?_
    · unfold fX7_drop
      simp only [s1, Option.bind_some, Sum.elim_inl]
    · unfold fX8_drop
      simp only [s2, pass_1, Option.bind_some, if_true]
/-- the two sides of a call that never throws -/
def Meet0 (A : Option (Int32 × cS)) (B : Option (Int32 × mS)) : Prop := ∃ r a' m', A = some (r, a') ∧ B = some (r, m') ∧ Rel a' m'
theorem g_kept {a : cS} {m : mS} (h : Rel a m) : Meet0 (some (fX7_kept a, a)) (fX8_kept m) := by
  obtain ⟨c, hc, f1, f2, f3⟩ := h.2.2.2.1
  refine ⟨nI c, a, vI m 0 0, ?_, ?_, Rel_v0 h 0⟩
  · unfold fX7_kept fX0_count
    rw [f1]
  · unfold fX8_kept
    rw [show mI (vI m 0 0) 1 = nI c from f2]
theorem g_dropAll {a : cS} {m : mS} (h : Rel a m) : Meet0 (fX7_dropAll a) (fX8_dropAll m) := by
  obtain ⟨W, V, hs, ⟨c, hc, f1, f2, f3⟩, ⟨L, hL, t1, t2, t3⟩⟩ := h
  refine ⟨nI c, uI a 0 0, vI (vI m 0 0) 1 0, ?_, ?_, W, V, hs, ⟨0, by omega, rfl, rfl, fun j hj => by omega⟩, ⟨L, hL, t1, t2, t3⟩⟩
  · unfold fX7_dropAll fX0_empty fX0_count
    simp only [Option.bind_some, f1]
  · unfold fX8_dropAll
    rw [show mI (vI m 0 0) 1 = nI c from f2]
noncomputable def fsum (f : Nat → BS) : Nat → Int32
  | 0 => 0
  | j + 1 => fsum f j + sumI (f j) 101
theorem fsum_cong {f g : Nat → BS} : ∀ {c : Nat}, (∀ j, j < c → f j = g j) → fsum f c = fsum g c
  | 0, _ => rfl
  | c + 1, h => by rw [fsum, fsum, h c (by omega), fsum_cong (fun j hj => h j (by omega))]
theorem p_total_F {F c : Nat} {s : cS} (hc : c ≤ 7) (hI : sI s F = nI c) : ∀ (d fuel k : Nat), k + d = c → d < fuel → fX0_total_L4 F fuel (fsum (fun j => cB s (8 + 8 * F + j)) k) (nI k) s = some (fsum (fun j => cB s (8 + 8 * F + j)) c, s) := by
  intro d
  induction d with
  | zero =>
    intro fuel k h hf
    obtain ⟨l, rfl⟩ : ∃ l, fuel = l + 1 := ⟨fuel - 1, by omega⟩
    have : k = c := by omega
    subst this
    rw [fX0_total_L4, hI, if_pos (nI_le (by omega) (by omega))]
  | succ d ih =>
    intro fuel k h hf
    obtain ⟨l, rfl⟩ : ∃ l, fuel = l + 1 := ⟨fuel - 1, by omega⟩
    have k7 : k < 7 := by omega
    rw [fX0_total_L4, hI, if_neg (nI_ge (by omega) (by omega)), if_pos (vin7 k7), cl7 k7, p_total, nI_1]
    exact ih l (k + 1) (by omega) (by omega)
theorem m_total_F {c : Nat} {m : mS} (hc : c ≤ 7) (hI : mI m 1 = nI c) : ∀ (d fuel k : Nat), k + d = c → d < fuel → fX8_keptSum_L9 fuel (fsum (fun j => mB m (9 + 7 * 0 + j)) k) (nI k) m = some (fsum (fun j => mB m (9 + 7 * 0 + j)) c, m) := by
  intro d
  induction d with
  | zero =>
    intro fuel k h hf
    obtain ⟨l, rfl⟩ : ∃ l, fuel = l + 1 := ⟨fuel - 1, by omega⟩
    have : k = c := by omega
    subst this
    rw [fX8_keptSum_L9, hI, if_pos (nI_le (by omega) (by omega))]
  | succ d ih =>
    intro fuel k h hf
    obtain ⟨l, rfl⟩ : ∃ l, fuel = l + 1 := ⟨fuel - 1, by omega⟩
    have k7 : k < 7 := by omega
    rw [fX8_keptSum_L9, hI, if_neg (nI_ge (by omega) (by omega)), if_pos (vin7 k7), cl7 k7, m_sumOf, nI_1]
    exact ih l (k + 1) (by omega) (by omega)
theorem fam_eq {a : cS} {m : mS} {c : Nat} (f3 : ∀ j, j < c → cB a (8 + j) = mB m (9 + j)) : ∀ j, j < c → cB a (8 + 8 * 0 + j) = mB m (9 + 7 * 0 + j) := fun j hj => by
  rw [show 8 + 8 * 0 + j = 8 + j from by omega, show 9 + 7 * 0 + j = 9 + j from by omega]
  exact f3 j hj
theorem g_keptSum {a : cS} {m : mS} (h : Rel a m) : Meet0 (fX7_keptSum a) (fX8_keptSum m) := by
  obtain ⟨c, hc, f1, f2, f3⟩ := h.2.2.2.1
  refine ⟨fsum (fun j => cB a (8 + 8 * 0 + j)) c, a, vI m 0 0, ?_, ?_, Rel_v0 h 0⟩
  · unfold fX7_keptSum fX0_total
    have := p_total_F (F := 0) hc f1 c 1100 0 (by omega) (by omega)
    rw [show fX0_total_L4 0 1100 0 0 a = _ from this]
    rfl
  · unfold fX8_keptSum
    have := m_total_F (m := vI m 0 0) hc f2 c 1100 0 (by omega) (by omega)
    refine (show fX8_keptSum_L9 1100 0 0 (vI m 0 0) = _ from this).trans ?_
    exact congrArg (fun z => some (z, vI m 0 0)) (fsum_cong (c := c) (g := fun j => cB a (8 + 8 * 0 + j)) (fun j hj => (fam_eq f3 j hj).symm))
theorem place_or {c : Nat} (hc : c ≤ 7) (p : Int32) {a : cS} (f1 : sI a 0 = nI c) : (∃ P, P < c ∧ p = nI P ∧ fX0_hasPlace 0 p a = 1 ∧ ∀ m, fX8_in p 0 (nI c - 1) m = 1) ∨ (fX0_hasPlace 0 p a = 0 ∧ ∀ m, fX8_in p 0 (nI c - 1) m = 0) := by
  by_cases h : p < 0
  · right
    constructor
    · unfold fX0_hasPlace
      rw [if_pos h]
    · intro m
      unfold fX8_in
      rw [if_pos h]
  · obtain ⟨P, hP, rfl⟩ := nI_of h
    by_cases g : P < c
    · left
      refine ⟨P, g, rfl, ?_, fun m => ?_⟩
      · unfold fX0_hasPlace
        rw [if_neg h, f1, if_neg (nI_ge g (by omega))]
      · unfold fX8_in
        rw [if_neg h, show nI c - 1 = nI (c - 1) from by rw [show c = (c - 1) + 1 from by omega, nI_pred]; rfl, if_neg (nI_nlt (by omega) (by omega))]
    · right
      constructor
      · unfold fX0_hasPlace
        rw [if_neg h, f1, if_pos (nI_le (by omega) hP)]
      · intro m
        unfold fX8_in
        rw [if_neg h, if_pos ?_]
        rcases Nat.eq_zero_or_pos c with z | z
        · subst z
          rw [show nI 0 - 1 = -1 from by decide]
          apply Int32.lt_iff_toInt_lt.mpr
          rw [nI_toInt hP, show (-1 : Int32).toInt = -1 from by decide]
          omega
        · rw [show nI c - 1 = nI (c - 1) from by rw [show c = (c - 1) + 1 from by omega, nI_pred]; rfl]
          exact nI_lt (by omega) hP
theorem g_take {a : cS} {m : mS} (h : Rel a m) (p q : Int32) : Meets 1 3 (fX7_take p q a) (fX8_take p q m) := by
  rcases set_or p with ⟨i, hi, rfl⟩ | ⟨s1, s2⟩
  · obtain ⟨s1, s2⟩ := set_in hi
    obtain ⟨c, hc, f1, f2, f3⟩ := h.2.2.2.1
    rcases place_or hc q f1 with ⟨P, hP, rfl, q1, q2⟩ | ⟨q1, q2⟩
    · have P7 : P < 7 := by omega
      obtain ⟨a', e1, e2, e3⟩ := p_become i (8 + 8 * 0 + P) a
      obtain ⟨m', k1, k2, k3, k4⟩ := m_copies (9 + 7 * 0 + P) i (Vm_vI h.2.1 0 0)
      rw [mB_vI, ← fam_eq f3 P hP] at k3
      have W' := Wf_up h.1 (h.1 _) e2
      refine Meets.ok (r := nI (sz (cB a (8 + 8 * 0 + P)))) (a' := a') (m' := m') ?_ ?_ (mI_eq k4 0) (Rel_row h hi (h.1 _) e2 e3 (fun r _ _ => by rw [k3]) (mI_eq k4 1) (mI_eq k4 3) (mT_eq (m := vI m 0 0) k4) k2)
      · unfold fX7_take fX0_tell
        simp only [s1, Option.bind_some, Sum.elim_inr, if_pos (lt8 hi), q1, one_0, vin7 P7, cl7 P7, if_true, e1, p_count i a' W']
        rw [e2, zu_at]
      · unfold fX8_take
        simp only [s2, f2, q2, pass_0, Option.bind_some, one_0, vin7 P7, cl7 P7, vin8 hi, cl8 hi, if_true, k1, m_sizeOf]
        rw [k3, zu_at]
    · refine Meets.e2 (r := 0) h ?_ ?_
      · unfold fX7_take
        simp only [s1, Option.bind_some, Sum.elim_inr, if_pos (lt8 hi), q1, if_true]
      · unfold fX8_take
        simp only [s2, f2, q2, pass_2, Option.bind_some, if_true]
  · refine Meets.e1 (r := 0) h ?_ ?_
    · unfold fX7_take
      simp only [s1, Option.bind_some, Sum.elim_inl]
    · unfold fX8_take
      simp only [s2, pass_1, Option.bind_some, if_true]
