/-! ===== reading: what stands in braces ===== -/
/-- how a reading ends with an error -/
def Err (T : Nat → Nat) (L : Nat) (a : cS) (p kd pl : Nat) : Prop := ∃ n a', Go n a a' ∧ n + p ≤ L ∧ Wf a' ∧ aeq a a' ∧ (kd = 1 ∨ kd = 2) ∧ pl ≤ L ∧ ((sI a' 9 = nI kd ∧ sI a' 10 = nI pl) ∨ (sI a' 9 = 0 ∧ sI a' 4 ≠ 0 ∧ (∃ pe, pe ≤ L ∧ sI a' 3 = nI pe ∧ sk T L pe = L) ∧ kd = 1 ∧ pl = L))
theorem Err.step {T : Nat → Nat} {L n p p' kd pl : Nat} {a a' : cS} (g : Go n a a') (h : n + p ≤ p') (e : aeq a a') (h2 : Err T L a' p' kd pl) : Err T L a p kd pl := by
  obtain ⟨k, b, b1, b2, b3, b4, b5⟩ := h2
  exact ⟨n + k, b, g.trans b1, by omega, b3, aeq_trans e b4, b5⟩
theorem Err.fin {T : Nat → Nat} {L p kd pl : Nat} {a : cS} (W : Wf a) (h : p ≤ L) (hk : kd = 1 ∨ kd = 2) (hp : pl ≤ L) (h9 : sI a 9 = nI kd) (h10 : sI a 10 = nI pl) : Err T L a p kd pl := ⟨0, a, Go.refl a, by omega, W, aeq_refl a, hk, hp, Or.inl ⟨h9, h10⟩⟩
theorem Err.eot {T : Nat → Nat} {L p : Nat} {a : cS} (W : Wf a) (h : p ≤ L) (h9 : sI a 9 = 0) (h4 : sI a 4 ≠ 0) {pe : Nat} (h1 : pe ≤ L) (h3 : sI a 3 = nI pe) (hs : sk T L pe = L) : Err T L a p 1 L := ⟨0, a, Go.refl a, by omega, W, aeq_refl a, Or.inl rfl, Nat.le_refl _, Or.inr ⟨h9, h4, ⟨pe, h1, h3, hs⟩, rfl, rfl⟩⟩
/-- what an item leaves as it was -/
def cfi (a a' : cS) : Prop := Wf a' ∧ (∀ n, n ≠ 33 → cB a' n = cB a n) ∧ (∀ k, k ≠ 3 → k ≠ 4 → k ≠ 7 → k ≠ 9 → k ≠ 10 → sI a' k = sI a k) ∧ sT a' = sT a
def mfi (z : Nat) (m m' : mS) : Prop := Vm m' ∧ (∀ r, r ≠ z → mB m' r = mB m r) ∧ (∀ k, k ≠ 5 → k ≠ 7 → k ≠ 8 → mI m' k = mI m k) ∧ mT m' = mT m
theorem cfi.trans {a b c : cS} (h : cfi a b) (g : cfi b c) : cfi a c := ⟨g.1, fun n hn => (g.2.1 n hn).trans (h.2.1 n hn), fun k a b c d e => (g.2.2.1 k a b c d e).trans (h.2.2.1 k a b c d e), g.2.2.2.trans h.2.2.2⟩
theorem mfi.trans {z : Nat} {a b c : mS} (h : mfi z a b) (g : mfi z b c) : mfi z a c := ⟨g.1, fun n hn => (g.2.1 n hn).trans (h.2.1 n hn), fun k a b c => (g.2.2.1 k a b c).trans (h.2.2.1 k a b c), g.2.2.2.trans h.2.2.2⟩
theorem cfi.refl {a : cS} (W : Wf a) : cfi a a := ⟨W, fun _ _ => rfl, fun _ _ _ _ _ _ => rfl, rfl⟩
theorem mfi.refl {z : Nat} {m : mS} (V : Vm m) : mfi z m m := ⟨V, fun _ _ => rfl, fun _ _ _ _ => rfl, rfl⟩
theorem cfi.aeq {a a' : cS} (h : cfi a a') : aeq a a' := ⟨fun n hn => h.2.1 n (by omega), h.2.2.1 0 (by decide) (by decide) (by decide) (by decide) (by decide), h.2.2.1 2 (by decide) (by decide) (by decide) (by decide) (by decide), h.2.2.2⟩
theorem cfi.tx {T : Nat → Nat} {L : Nat} {a a' : cS} (h : cfi a a') (ha : cTx T L a) : cTx T L a' := ⟨(h.2.2.1 2 (by decide) (by decide) (by decide) (by decide) (by decide)).trans ha.1, fun k hk => by rw [h.2.2.2]; exact ha.2 k hk⟩
theorem mfi.tx {T : Nat → Nat} {L z : Nat} {m m' : mS} (h : mfi z m m') (hm : mTx T L m) : mTx T L m' := ⟨(h.2.2.1 3 (by decide) (by decide) (by decide)).trans hm.1, fun k hk => by rw [h.2.2.2]; exact hm.2 k hk⟩
/-- ints of those numbers alone -/
theorem cfi_u {a : cS} (W : Wf a) {k : Nat} (hk : k = 3 ∨ k = 4 ∨ k = 7 ∨ k = 9 ∨ k = 10) (v : Int32) : cfi a (uI a k v) := ⟨W, fun _ _ => rfl, fun j a b c d e => if_neg (by rintro rfl; rcases hk with h | h | h | h | h <;> first | exact a h | exact b h | exact c h | exact d h | exact e h), rfl⟩
theorem mfi_u {z : Nat} {m : mS} (V : Vm m) {k : Nat} (hk : k = 5 ∨ k = 7 ∨ k = 8) (v : Int32) : mfi z m (vI m k v) := ⟨V, fun _ _ => rfl, fun j a b c => if_neg (by rintro rfl; rcases hk with h | h | h <;> first | exact a h | exact b h | exact c h), rfl⟩
theorem cfi_fail {a : cS} (W : Wf a) (p kd pl : Nat) : cfi a (cFail a p kd pl) := (cfi_u W (Or.inl rfl) (nI p)).trans ((cfi_u (a := uI a 3 (nI p)) W (Or.inr (Or.inr (Or.inr (Or.inl rfl)))) (nI kd)).trans (cfi_u (a := uI (uI a 3 (nI p)) 9 (nI kd)) W (Or.inr (Or.inr (Or.inr (Or.inr rfl)))) (nI pl)))
theorem mfi_fail {z : Nat} {m : mS} (V : Vm m) (p kd pl : Nat) : mfi z m (mFail m p kd pl) := (mfi_u V (Or.inl rfl) (nI p)).trans ((mfi_u (m := vI m 5 (nI p)) V (Or.inr (Or.inl rfl)) (nI kd)).trans (mfi_u (m := vI (vI m 5 (nI p)) 7 (nI kd)) V (Or.inr (Or.inr rfl)) (nI pl)))
theorem z51 : nI 51 - 51 = (0 : Int32) := by decide
def rg (X : BS) (k e : Nat) : BS := fun j => X j || decide (k ≤ j ∧ j ≤ e)
theorem rg_wf {X : BS} (h : wfB X) {k e : Nat} (he : e < 102) : wfB (rg X k e) := fun j hj => by
  unfold rg
  rw [h j hj, decide_eq_false (by omega)]
  rfl
theorem rg_end (X : BS) {k e : Nat} (h : e < k) : rg X k e = X := funext fun j => by
  unfold rg
  rw [decide_eq_false (by omega), Bool.or_false]
theorem rg_step (X : BS) {k e : Nat} (h : k ≤ e) : rg (va_up X k true) (k + 1) e = rg X k e := funext fun j => by
  unfold rg
  by_cases c : j = k
  · subst c
    rw [show va_up X j true j = true from if_pos rfl, decide_eq_true (show j ≤ j ∧ j ≤ e by omega), Bool.or_true]
    rfl
  · rw [show va_up X k true j = X j from if_neg c, show decide (k + 1 ≤ j ∧ j ≤ e) = decide (k ≤ j ∧ j ≤ e) from decide_eq_decide.mpr (by omega)]
theorem rg_one (X : BS) (k : Nat) : rg X k k = va_up X k true := by
  rw [← rg_step X (Nat.le_refl k)]
  exact rg_end _ (Nat.lt_succ_self k)
theorem k_sub : ∀ k, k < 103 → 0 < k → nI k - 51 + 1 = nI (k + 1) - 51 ∧ nI k - 51 + 51 = nI k := by decide +kernel
theorem p_rng_L {e : Nat} (he : e < 102) (k0 : cS → Option cS) : ∀ (d fuel k : Nat) (a : cS), k + d = 102 → 0 < k → d < fuel → Wf a → ∃ a', fX3_readSecondNumber_L28 (nI e - 51) k0 fuel (nI k - 51) a = k0 a' ∧ cfi a a' ∧ cB a' 33 = rg (cB a 33) k e ∧ sI a' = sI a := by
  intro d
  induction d with
  | zero =>
    intro fuel k a h h0 hf W
    obtain ⟨f, rfl⟩ : ∃ f, fuel = f + 1 := ⟨fuel - 1, by omega⟩
    have : k = 102 := by omega
    subst this
    rw [fX3_readSecondNumber_L28, if_pos ((km_lt (by omega) (by omega)).mpr (by omega))]
    exact ⟨a, rfl, cfi.refl W, (rg_end _ (by omega)).symm, rfl⟩
  | succ d ih =>
    intro fuel k a h h0 hf W
    obtain ⟨f, rfl⟩ : ∃ f, fuel = f + 1 := ⟨fuel - 1, by omega⟩
    have ks := k_sub k (by omega) h0
    rw [fX3_readSecondNumber_L28]
    by_cases c : e < k
    · rw [if_pos ((km_lt (by omega) (by omega)).mpr c)]
      exact ⟨a, rfl, cfi.refl W, (rg_end _ c).symm, rfl⟩
    · rw [if_neg (fun z => c ((km_lt (by omega) (by omega)).mp z)), if_neg (show ¬ (50 : Int32) < nI k - 51 from fun z => by rw [top_50, km_lt (by omega) (by omega)] at z; omega), ks.1, ks.2]
      obtain ⟨a1, e1, e2, e3⟩ := p_put 33 a (show k < 102 by omega)
      rw [e1]
      simp only [Option.bind_some]
      have x33 : cB a1 33 = va_up (cB a 33) k true := by rw [e2]; exact zu_at _ _ _
      have W1 : Wf a1 := Wf_up W (wf_set (W 33) (by omega) true) e2
      have f1 : cfi a a1 := ⟨W1, fun n hn => by rw [e2]; exact zu_ne _ hn _, fun k _ _ _ _ _ => sI_eq e3 k, sT_eq e3⟩
      obtain ⟨a', r1, r2, r3, r4⟩ := ih f (k + 1) a1 (by omega) (by omega) (by omega) W1
      refine ⟨a', r1, f1.trans r2, ?_, r4.trans (funext fun j => sI_eq e3 j)⟩
      rw [r3, x33]
      exact rg_step _ (by omega)
theorem m_rng_L {z e : Nat} (he : e < 102) : ∀ (d fuel k : Nat) (m : mS), k + d = e + 1 → 0 < k → d < fuel → Vm m → mI m 7 = 0 → ∃ m', fX8_item_L125 z (nI e - 51) fuel (nI k - 51) m = some m' ∧ mfi z m m' ∧ mB m' z = rg (mB m z) k e ∧ m'.2 = m.2 := by
  intro d
  induction d with
  | zero =>
    intro fuel k m h h0 hf V h7
    obtain ⟨f, rfl⟩ : ∃ f, fuel = f + 1 := ⟨fuel - 1, by omega⟩
    rw [fX8_item_L125, if_pos h7, if_pos ((km_lt (by omega) (by omega)).mpr (by omega))]
    exact ⟨m, rfl, mfi.refl V, (rg_end _ (by omega)).symm, rfl⟩
  | succ d ih =>
    intro fuel k m h h0 hf V h7
    obtain ⟨f, rfl⟩ : ∃ f, fuel = f + 1 := ⟨fuel - 1, by omega⟩
    have ks := k_sub k (by omega) h0
    have hk : k < 102 := by omega
    rw [fX8_item_L125, if_pos h7, if_neg (fun z => by have := (km_lt (by omega) (by omega)).mp z; omega), place_num hk h0, if_pos (vin102 hk), cl102 hk, ks.1, nb_1]
    have x1 : mB (vR m z k (bi true)) z = va_up (mB m z) k true := by rw [mB_set m hk]; exact zu_at _ _ _
    have f1 : mfi z m (vR m z k (bi true)) := ⟨Vm_vR V _ _ _, fun r hr => by rw [mB_set m hk]; exact zu_ne _ hr _, fun _ _ _ _ => rfl, rfl⟩
    obtain ⟨m', r1, r2, r3, r4⟩ := ih f (k + 1) (vR m z k (bi true)) (by omega) (by omega) (by omega) (Vm_vR V _ _ _) h7
    refine ⟨m', r1, f1.trans r2, ?_, r4⟩
    rw [r3, x1]
    exact rg_step _ (by omega)
theorem m_rng_err (z : Nat) (x y : Int32) (f : Nat) {m : mS} (h : mI m 7 ≠ 0) : fX8_item_L125 z x (f + 1) y m = some m := by
  rw [fX8_item_L125, if_neg h]
/-! an item -/
theorem ch_ne {c d : Nat} (hc : c < 256) (hd : d < 256) (h : c ≠ d) : ¬ nI c = nI d := fun z => h ((ceq hc hd).mp z)
theorem m_bad_number {T : Nat → Nat} {L q : Nat} (h : TX T L) {m : mS} (hm : mTx T L m) (hq : q ≤ L) (h5 : mI m 5 = nI q) (h7 : mI m 7 = 0) (h45 : ch T L q ≠ 45) (hd : dgt (ch T L q) = false) : fX8_number m = some (0, mFail m q 1 q) := by
  have hL := h.1
  have hc := ch_lt h q
  unfold fX8_number
  rw [m_sign h hm (by omega) h5]
  simp only [Option.bind_some, h5, Int32.add_zero]
  rw [if_neg (show ¬ nI (ch T L q) = 45 from ch_ne (d := 45) hc (by decide) h45), vI_self h5, m_sign h hm (by omega) h5]
  simp only [Option.bind_some, m_dgt hc, hd, if_bi, h5, Bool.false_eq_true, if_false]
  rw [m_fails 1 _ h7]
  unfold mFail
  rw [vI_self h5]
  rfl
theorem c_refuse (a : cS) : fX3_refuseByte a = some (uI (uI a 9 1) 10 (sI a 3)) := rfl
/-- behind the first number of an item, or behind a whole item -/
def Aft (T : Nat → Nat) (L : Nat) (a0 a : cS) (m0 m : mS) (z pc0 : Nat) : Prop := ∃ n a' p' pc', Go n a0 a' ∧ cfi a0 a' ∧ sI a' 9 = 0 ∧ (sI a' 4 = 8 ∨ sI a' 4 = 6 ∧ ch T L (sk T L p') ≠ 46) ∧ sI a' 3 = nI pc' ∧ pc' ≤ L ∧ mI m 5 = nI p' ∧ p' ≤ L ∧ sk T L pc' = sk T L p' ∧ n + pc0 ≤ pc' ∧ cB a' 33 = mB m z ∧ mI m 7 = 0 ∧ mI m 8 = mI m0 8
theorem kd_ne {kd : Nat} (h : kd = 1 ∨ kd = 2) : nI kd ≠ 0 := by rcases h with rfl | rfl <;> decide
/-- the numbers of an item, from the first sign on -/
theorem item_num {T : Nat → Nat} {L q z : Nat} (h : TX T L) {a : cS} {m : mS} (W : Wf a) (V : Vm m) (ha : cTx T L a) (hm : mTx T L m) (hq : q < L) (h3 : sI a 3 = nI q) (h9 : sI a 9 = 0) (h5 : mI m 5 = nI q) (h7 : mI m 7 = 0) (hX : cB a 33 = mB m z) (hsg : T q = 45 ∨ dgt (T q) = true) : ∃ a1 r s1, (fX3_readNumber (nI (T q)) (-50) a).bind (fun (r1, s1) => (fX2_put 33 ((sI (uI s1 7 r1) 7) + 51) (uI s1 7 r1)).bind (fun (r2, s2) => some (uI s2 4 6))) = some a1 ∧ fX8_number m = some (r, s1) ∧ cfi a a1 ∧ ((∃ p' kd pl, (kd = 1 ∨ kd = 2) ∧ pl ≤ L ∧ sI a1 9 = nI kd ∧ sI a1 10 = nI pl ∧ s1 = mFail m p' kd pl) ∨ (∃ p' k, q < p' ∧ p' ≤ L ∧ 0 < k ∧ k < 102 ∧ r = nI k - 51 ∧ s1 = vI m 5 (nI p') ∧ sI a1 9 = 0 ∧ sI a1 4 = 6 ∧ sI a1 3 = nI p' ∧ sI a1 7 = nI k - 51 ∧ cB a1 33 = rg (cB a 33) k k)) := by
  have hL := h.1
  have put : ∀ (s : cS) (k : Nat), Wf s → 0 < k → k < 102 → ∃ s', (fX2_put 33 ((sI (uI s 7 (nI k - 51)) 7) + 51) (uI s 7 (nI k - 51))).bind (fun (r2, s2) => some (uI s2 4 6)) = some s' ∧ cfi s s' ∧ sI s' 9 = sI s 9 ∧ sI s' 10 = sI s 10 ∧ sI s' 4 = 6 ∧ sI s' 3 = sI s 3 ∧ sI s' 7 = nI k - 51 ∧ cB s' 33 = rg (cB s 33) k k := by
    intro s k Ws k0 k1
    obtain ⟨s2, e1, e2, e3⟩ := p_put 33 (uI s 7 (nI k - 51)) k1
    have i2 : ∀ j, sI s2 j = sI (uI s 7 (nI k - 51)) j := fun j => sI_eq e3 j
    have W2 : Wf s2 := Wf_up (a := uI s 7 (nI k - 51)) Ws (wf_set (Ws 33) k1 true) e2
    have x33 : cB s2 33 = va_up (cB s 33) k true := by rw [e2]; exact zu_at _ _ _
    refine ⟨uI s2 4 6, ?_, ?_, ?_, ?_, rfl, ?_, ?_, ?_⟩
    · rw [show sI (uI s 7 (nI k - 51)) 7 = nI k - 51 from rfl, (k_sub k (by omega) k0).2, e1]
      rfl
    · exact (cfi_u Ws (Or.inr (Or.inr (Or.inl rfl))) _).trans (cfi.trans ⟨W2, fun n hn => by rw [e2]; exact zu_ne _ hn _, fun j _ _ _ _ _ => i2 j, sT_eq e3⟩ (cfi_u W2 (Or.inr (Or.inl rfl)) _))
    · rw [sI_ne _ (by decide), i2, sI_ne _ (by decide)]
    · rw [sI_ne _ (by decide), i2, sI_ne _ (by decide)]
    · rw [sI_ne _ (by decide), i2, sI_ne _ (by decide)]
    · rw [sI_ne _ (by decide), i2, sI_at]
    · show cB s2 33 = _
      rw [x33, rg_one]
  rw [lst_1]
  rcases num_both h ha hm hq h3 h5 h7 (l := 1) (by decide) (by decide) with ⟨p', e0, e1, e2, e3⟩ | ⟨p', r, e0, e1, e2, e3⟩ | ⟨p', k, e0, e1, k0, k1, e2, e3⟩
  · have W1 := (cfi_fail W p' 1 p').1
    obtain ⟨s', g1, g2, g3, g4, g5, g6, g7, g8⟩ := put (cFail a p' 1 p') 51 W1 (by decide) (by decide)
    have pl : p' ≤ L := by rw [e0]; split <;> omega
    refine ⟨s', 0, mFail m p' 1 p', ?_, e3, (cfi_fail W p' 1 p').trans g2, Or.inl ⟨p', 1, p', Or.inl rfl, pl, ?_, ?_, rfl⟩⟩
    · rw [e2.trans (show some ((0 : Int32), cFail a p' 1 p') = some (nI 51 - 51, cFail a p' 1 p') from by rw [z51])]
      simp only [Option.bind_some]
      exact g1
    · rw [g3]
      rfl
    · rw [g4]
      rfl
  · have W1 := (cfi_fail W p' 2 q).1
    obtain ⟨s', g1, g2, g3, g4, g5, g6, g7, g8⟩ := put (cFail a p' 2 q) 51 W1 (by decide) (by decide)
    refine ⟨s', r, mFail m p' 2 q, ?_, e3, (cfi_fail W p' 2 q).trans g2, Or.inl ⟨p', 2, q, Or.inr rfl, by omega, ?_, ?_, rfl⟩⟩
    · rw [e2.trans (show some ((0 : Int32), cFail a p' 2 q) = some (nI 51 - 51, cFail a p' 2 q) from by rw [z51])]
      simp only [Option.bind_some]
      exact g1
    · rw [g3]
      rfl
    · rw [g4]
      rfl
  · have f0 := cfi_u W (k := 3) (Or.inl rfl) (nI p')
    obtain ⟨s', g1, g2, g3, g4, g5, g6, g7, g8⟩ := put (uI a 3 (nI p')) k f0.1 k0 k1
    refine ⟨s', nI k - 51, vI m 5 (nI p'), ?_, e3, f0.trans g2, Or.inr ⟨p', k, e0, e1, k0, k1, rfl, rfl, ?_, g5, ?_, g7, g8⟩⟩
    · rw [e2, if_neg (by omega)]
      exact g1
    · rw [g3]
      exact h9
    · rw [g6]
      rfl
