/-! ===== the council's state, and the cells that hold it =====
what changes: a set of members is two longs, by the set's number (0 to 7 the council's; 8 + 8 * F + i the family F's (F = 0 the family, F = 1 the draft), 15 + 8 * F what F makes; 24 the spare one; 25 + i the reader's named ones, 33 its braces, 34 + i its sums, 43 + i its parts; 52, 53, 54 the laws' left, right and part);
the ints: 0, 1 the families' counts, 2 the text's length, 3 to 10 the reader's at, state, open, target, first, statements, kind, place, 11 + 2 * i its sum signs, 12 + 2 * i whether its parts are begun; and the text's bytes -/
theorem sL_uL (s : cS) (n j : Nat) (v : Int64) : sL (uL s n v) j = if j = n then v else sL s j := rfl
theorem sL_uH (s : cS) (n j : Nat) (v : Int64) : sL (uH s n v) j = sL s j := rfl
theorem sL_uI (s : cS) (n j : Nat) (v : Int32) : sL (uI s n v) j = sL s j := rfl
theorem sL_uT (s : cS) (n j : Nat) (v : Int32) : sL (uT s n v) j = sL s j := rfl
theorem sH_uL (s : cS) (n j : Nat) (v : Int64) : sH (uL s n v) j = sH s j := rfl
theorem sH_uH (s : cS) (n j : Nat) (v : Int64) : sH (uH s n v) j = if j = n then v else sH s j := rfl
theorem sH_uI (s : cS) (n j : Nat) (v : Int32) : sH (uI s n v) j = sH s j := rfl
theorem sH_uT (s : cS) (n j : Nat) (v : Int32) : sH (uT s n v) j = sH s j := rfl
theorem sI_uL (s : cS) (n j : Nat) (v : Int64) : sI (uL s n v) j = sI s j := rfl
theorem sI_uH (s : cS) (n j : Nat) (v : Int64) : sI (uH s n v) j = sI s j := rfl
theorem sI_uI (s : cS) (n j : Nat) (v : Int32) : sI (uI s n v) j = if j = n then v else sI s j := rfl
theorem sI_uT (s : cS) (n j : Nat) (v : Int32) : sI (uT s n v) j = sI s j := rfl
theorem sT_uL (s : cS) (n j : Nat) (v : Int64) : sT (uL s n v) j = sT s j := rfl
theorem sT_uH (s : cS) (n j : Nat) (v : Int64) : sT (uH s n v) j = sT s j := rfl
theorem sT_uI (s : cS) (n j : Nat) (v : Int32) : sT (uI s n v) j = sT s j := rfl
theorem sT_uT (s : cS) (n j : Nat) (v : Int32) : sT (uT s n v) j = if j = n then v else sT s j := rfl
/-- a row of references -/
abbrev qr (cA : ClassId) (n : Nat) (f : Nat → Nat) : va_E := .inl (cA, n, .inr (.inr (.inr (.inr (fun i => some (f i))))))
abbrev ir (cA : ClassId) (n : Nat) (f : Nat → Int32) : va_E := .inl (cA, n, .inl f)
/-- the cell of each place -/
def cE (ad : Nat → Nat) (κ : Nat → ClassId) (s : cS) (k : Nat) : va_E :=
  if k < 55 then .inr (2, [.long (sL s k), .long (sH s k)])
  else if k = 55 then .inr (7, [.ref (ad 56), .ref (ad 57), .ref (ad 66), .ref (ad 67), .ref (ad 24), .ref (ad 70), .ref (ad 72), .ref (ad 78)])
  else if k = 56 then qr (κ 0) 8 (fun i => ad i)
  else if k = 57 then qr (κ 1) 8 (fun i => ad (58 + i))
  else if k < 66 then .inr (5, [.ref (ad (k - 58))])
  else if k < 68 then .inr (0, [.ref (ad (k + 2)), .ref (ad (15 + 8 * (k - 66))), .int (sI s (k - 66))])
  else if k < 70 then qr (κ 0) 7 (fun i => ad (8 + 8 * (k - 68) + i))
  else if k = 70 then .inr (4, [.ref (ad 71), .int (sI s 2)])
  else if k = 71 then ir (κ 2) 200 (sT s)
  else if k = 72 then .inr (3, [.ref (ad 70), .ref (ad 73), .ref (ad 33), .ref (ad 74), .ref (ad 75), .ref (ad 76), .ref (ad 77), .int (sI s 3), .int (sI s 4), .int (sI s 5), .int (sI s 6), .int (sI s 7), .int (sI s 8), .int (sI s 9), .int (sI s 10)])
  else if k = 73 then qr (κ 0) 8 (fun i => ad (25 + i))
  else if k = 74 then qr (κ 0) 9 (fun i => ad (34 + i))
  else if k = 75 then qr (κ 0) 9 (fun i => ad (43 + i))
  else if k = 76 then ir (κ 3) 9 (fun i => sI s (11 + 2 * i))
  else if k = 77 then ir (κ 4) 9 (fun i => sI s (12 + 2 * i))
  else .inr (1, [.ref (ad 52), .ref (ad 53), .ref (ad 54)])
def cW (ad : Nat → Nat) (κ : Nat → ClassId) (s : cS) : va_W := (List.range 79).map (fun k => (ad k, cE ad κ s k))
/-- the arrays' classes, of the council's, the reference's and the law's -/
abbrev tyA (κ : Nat → ClassId) : List (ClassId × FieldType) := [(κ 0, .object "SetCouncil$MemberSet"), (κ 1, .object "SetCouncil$View"), (κ 2, .char), (κ 3, .int), (κ 4, .boolean), (κ 5, .array .boolean), (κ 6, .long)]
section CWO
variable (ad : Nat → Nat) (κ : Nat → ClassId) (s : cS)
theorem cW_WA : WA (cW ad κ) := fun st st' => by simp [cW]
theorem cW_at {k : Nat} (h : k < 79) : (cW ad κ s)[k]? = some (ad k, cE ad κ s k) := by simp [cW, h]
theorem cW_set {s' : cS} {k : Nat} {e : va_E} (h : k < 79) (he : e = cE ad κ s' k) (ho : ∀ j, j < 79 → j ≠ k → cE ad κ s j = cE ad κ s' j) : (cW ad κ s).set k (ad k, e) = cW ad κ s' := by
  apply List.ext_getElem?
  intro j
  by_cases hj : j < 79
  · rw [cW_at ad κ s' hj]
    by_cases hk : j = k
    · subst hk
      rw [List.getElem?_set_self (by simp [cW]; exact h), he]
    · rw [List.getElem?_set_ne (Ne.symm hk), cW_at ad κ s hj, ho j hj hk]
  · rw [List.getElem?_eq_none (by simp [cW]; omega), List.getElem?_eq_none (by simp [cW]; omega)]
theorem cw_MS {n : Nat} (h : n < 55) : (cW ad κ s)[n]? = some (ad n, .inr (2, [.long (sL s n), .long (sH s n)])) := by
  rw [cW_at ad κ s (Nat.lt_trans h (by decide))]; simp only [cE, h, if_true]
theorem cw_SC : (cW ad κ s)[55]? = some (ad 55, .inr (7, [.ref (ad 56), .ref (ad 57), .ref (ad 66), .ref (ad 67), .ref (ad 24), .ref (ad 70), .ref (ad 72), .ref (ad 78)])) := cW_at ad κ s (by decide)
theorem cw_SETS : (cW ad κ s)[56]? = some (ad 56, qr (κ 0) 8 (fun i => ad i)) := cW_at ad κ s (by decide)
theorem cw_VIEWS : (cW ad κ s)[57]? = some (ad 57, qr (κ 1) 8 (fun i => ad (58 + i))) := cW_at ad κ s (by decide)
theorem cw_VIEW {i : Nat} (h : i < 8) : (cW ad κ s)[58 + i]? = some (ad (58 + i), .inr (5, [.ref (ad i)])) := by
  rw [cW_at ad κ s (by omega)]
  simp only [cE, show ¬ 58 + i < 55 by omega, show ¬ 58 + i = 55 by omega, show ¬ 58 + i = 56 by omega, show ¬ 58 + i = 57 by omega, show 58 + i < 66 by omega, if_true, if_false, Nat.add_sub_cancel_left]
theorem cw_FAM {F : Nat} (h : F < 2) : (cW ad κ s)[66 + F]? = some (ad (66 + F), .inr (0, [.ref (ad (68 + F)), .ref (ad (15 + 8 * F)), .int (sI s F)])) := by
  rw [cW_at ad κ s (by omega)]
  simp only [cE, show ¬ 66 + F < 55 by omega, show ¬ 66 + F = 55 by omega, show ¬ 66 + F = 56 by omega, show ¬ 66 + F = 57 by omega, show ¬ 66 + F < 66 by omega, show 66 + F < 68 by omega, if_true, if_false, Nat.add_sub_cancel_left, show 66 + F + 2 = 68 + F by omega]
theorem cw_HELD {F : Nat} (h : F < 2) : (cW ad κ s)[68 + F]? = some (ad (68 + F), qr (κ 0) 7 (fun i => ad (8 + 8 * F + i))) := by
  rw [cW_at ad κ s (by omega)]
  simp only [cE, show ¬ 68 + F < 55 by omega, show ¬ 68 + F = 55 by omega, show ¬ 68 + F = 56 by omega, show ¬ 68 + F = 57 by omega, show ¬ 68 + F < 66 by omega, show ¬ 68 + F < 68 by omega, show 68 + F < 70 by omega, if_true, if_false, Nat.add_sub_cancel_left]
theorem cw_TEXT : (cW ad κ s)[70]? = some (ad 70, .inr (4, [.ref (ad 71), .int (sI s 2)])) := cW_at ad κ s (by decide)
theorem cw_BYTES : (cW ad κ s)[71]? = some (ad 71, ir (κ 2) 200 (sT s)) := cW_at ad κ s (by decide)
theorem cw_READER : (cW ad κ s)[72]? = some (ad 72, .inr (3, [.ref (ad 70), .ref (ad 73), .ref (ad 33), .ref (ad 74), .ref (ad 75), .ref (ad 76), .ref (ad 77), .int (sI s 3), .int (sI s 4), .int (sI s 5), .int (sI s 6), .int (sI s 7), .int (sI s 8), .int (sI s 9), .int (sI s 10)])) := cW_at ad κ s (by decide)
theorem cw_NAMED : (cW ad κ s)[73]? = some (ad 73, qr (κ 0) 8 (fun i => ad (25 + i))) := cW_at ad κ s (by decide)
theorem cw_SUMS : (cW ad κ s)[74]? = some (ad 74, qr (κ 0) 9 (fun i => ad (34 + i))) := cW_at ad κ s (by decide)
theorem cw_PARTS : (cW ad κ s)[75]? = some (ad 75, qr (κ 0) 9 (fun i => ad (43 + i))) := cW_at ad κ s (by decide)
theorem cw_SIGNS : (cW ad κ s)[76]? = some (ad 76, ir (κ 3) 9 (fun i => sI s (11 + 2 * i))) := cW_at ad κ s (by decide)
theorem cw_BEGUN : (cW ad κ s)[77]? = some (ad 77, ir (κ 4) 9 (fun i => sI s (12 + 2 * i))) := cW_at ad κ s (by decide)
theorem cw_LAWS : (cW ad κ s)[78]? = some (ad 78, .inr (1, [.ref (ad 52), .ref (ad 53), .ref (ad 54)])) := cW_at ad κ s (by decide)
-- what a store makes of it
theorem cE_cong {s s' : cS} {j : Nat} (hL : j < 55 → sL s j = sL s' j) (hH : j < 55 → sH s j = sH s' j) (hT : j = 71 → sT s = sT s')
    (hI : ∀ k, (j = 66 + k ∧ k < 2) ∨ (j = 70 ∧ k = 2) ∨ (j = 72 ∧ 3 ≤ k ∧ k ≤ 10) ∨ (j = 76 ∧ ∃ i, k = 11 + 2 * i) ∨ (j = 77 ∧ ∃ i, k = 12 + 2 * i) → sI s k = sI s' k) : cE ad κ s j = cE ad κ s' j := by
  unfold cE
  by_cases h0 : j < 55
  · rw [if_pos h0, if_pos h0, hL h0, hH h0]
  rw [if_neg h0, if_neg h0]
  by_cases h1 : j = 55
  · rw [if_pos h1, if_pos h1]
  rw [if_neg h1, if_neg h1]
  by_cases h2 : j = 56
  · rw [if_pos h2, if_pos h2]
  rw [if_neg h2, if_neg h2]
  by_cases h3 : j = 57
  · rw [if_pos h3, if_pos h3]
  rw [if_neg h3, if_neg h3]
  by_cases h4 : j < 66
  · rw [if_pos h4, if_pos h4]
  rw [if_neg h4, if_neg h4]
  by_cases h5 : j < 68
  · rw [if_pos h5, if_pos h5, hI (j - 66) (Or.inl ⟨by omega, by omega⟩)]
  rw [if_neg h5, if_neg h5]
  by_cases h6 : j < 70
  · rw [if_pos h6, if_pos h6]
  rw [if_neg h6, if_neg h6]
  by_cases h7 : j = 70
  · rw [if_pos h7, if_pos h7, hI 2 (Or.inr (Or.inl ⟨h7, rfl⟩))]
  rw [if_neg h7, if_neg h7]
  by_cases h8 : j = 71
  · rw [if_pos h8, if_pos h8, hT h8]
  rw [if_neg h8, if_neg h8]
  by_cases h9 : j = 72
  · have q : ∀ k, 3 ≤ k → k ≤ 10 → sI s k = sI s' k := fun k a b => hI k (Or.inr (Or.inr (Or.inl ⟨h9, a, b⟩)))
    rw [if_pos h9, if_pos h9, q 3 (by decide) (by decide), q 4 (by decide) (by decide), q 5 (by decide) (by decide), q 6 (by decide) (by decide), q 7 (by decide) (by decide), q 8 (by decide) (by decide), q 9 (by decide) (by decide), q 10 (by decide) (by decide)]
  rw [if_neg h9, if_neg h9]
  by_cases h10 : j = 73
  · rw [if_pos h10, if_pos h10]
  rw [if_neg h10, if_neg h10]
  by_cases h11 : j = 74
  · rw [if_pos h11, if_pos h11]
  rw [if_neg h11, if_neg h11]
  by_cases h12 : j = 75
  · rw [if_pos h12, if_pos h12]
  rw [if_neg h12, if_neg h12]
  by_cases h13 : j = 76
  · rw [if_pos h13, if_pos h13, show (fun i => sI s (11 + 2 * i)) = (fun i => sI s' (11 + 2 * i)) from funext fun i => hI _ (Or.inr (Or.inr (Or.inr (Or.inl ⟨h13, i, rfl⟩))))]
  rw [if_neg h13, if_neg h13]
  by_cases h14 : j = 77
  · rw [if_pos h14, if_pos h14, show (fun i => sI s (12 + 2 * i)) = (fun i => sI s' (12 + 2 * i)) from funext fun i => hI _ (Or.inr (Or.inr (Or.inr (Or.inr ⟨h14, i, rfl⟩))))]
  rw [if_neg h14, if_neg h14]
theorem cu_L {n : Nat} (h : n < 55) (v : Int64) : (cW ad κ s).set n (ad n, .inr (2, [.long v, .long (sH s n)])) = cW ad κ (uL s n v) := by
  refine cW_set ad κ s (Nat.lt_trans h (by decide)) ?_ (fun j hj hn => cE_cong ad κ (fun _ => ?_) (fun _ => rfl) (fun _ => rfl) (fun _ _ => rfl))
  · simp only [cE, h, if_true, sL_uL, sH_uL]
  · rw [sL_uL, if_neg hn]
theorem cu_H {n : Nat} (h : n < 55) (v : Int64) : (cW ad κ s).set n (ad n, .inr (2, [.long (sL s n), .long v])) = cW ad κ (uH s n v) := by
  refine cW_set ad κ s (Nat.lt_trans h (by decide)) ?_ (fun j hj hn => cE_cong ad κ (fun _ => rfl) (fun _ => ?_) (fun _ => rfl) (fun _ _ => rfl))
  · simp only [cE, h, if_true, sL_uH, sH_uH]
  · rw [sH_uH, if_neg hn]
theorem cu_COUNT {F : Nat} (h : F < 2) (v : Int32) : (cW ad κ s).set (66 + F) (ad (66 + F), .inr (0, [.ref (ad (68 + F)), .ref (ad (15 + 8 * F)), .int v])) = cW ad κ (uI s F v) := by
  refine cW_set ad κ s (by omega) ?_ (fun j hj hn => cE_cong ad κ (fun _ => rfl) (fun _ => rfl) (fun _ => rfl) (fun k hk => ?_))
  · simp only [cE, show ¬ 66 + F < 55 by omega, show ¬ 66 + F = 55 by omega, show ¬ 66 + F = 56 by omega, show ¬ 66 + F = 57 by omega, show ¬ 66 + F < 66 by omega, show 66 + F < 68 by omega, if_true, if_false, Nat.add_sub_cancel_left, show 66 + F + 2 = 68 + F by omega, sI_uI]
  · rw [sI_uI, if_neg]
    rcases hk with h1 | h1 | h1 | ⟨h1, i, h2⟩ | ⟨h1, i, h2⟩ <;> omega
theorem cu_TLEN (v : Int32) : (cW ad κ s).set 70 (ad 70, .inr (4, [.ref (ad 71), .int v])) = cW ad κ (uI s 2 v) := by
  refine cW_set ad κ s (by decide) rfl (fun j hj hn => cE_cong ad κ (fun _ => rfl) (fun _ => rfl) (fun _ => rfl) (fun k hk => ?_))
  rw [sI_uI, if_neg]
  rcases hk with h1 | h1 | h1 | ⟨h1, i, h2⟩ | ⟨h1, i, h2⟩ <;> omega
theorem cu_Rat (v : Int32) : (cW ad κ s).set 72 (ad 72, .inr (3, [.ref (ad 70), .ref (ad 73), .ref (ad 33), .ref (ad 74), .ref (ad 75), .ref (ad 76), .ref (ad 77), .int v, .int (sI s 4), .int (sI s 5), .int (sI s 6), .int (sI s 7), .int (sI s 8), .int (sI s 9), .int (sI s 10)])) = cW ad κ (uI s 3 v) := by
  refine cW_set ad κ s (by decide) rfl (fun j hj hn => cE_cong ad κ (fun _ => rfl) (fun _ => rfl) (fun _ => rfl) (fun k hk => ?_))
  rw [sI_uI, if_neg]
  rcases hk with h1 | h1 | h1 | ⟨h1, i, h2⟩ | ⟨h1, i, h2⟩ <;> omega
theorem cu_Rstate (v : Int32) : (cW ad κ s).set 72 (ad 72, .inr (3, [.ref (ad 70), .ref (ad 73), .ref (ad 33), .ref (ad 74), .ref (ad 75), .ref (ad 76), .ref (ad 77), .int (sI s 3), .int v, .int (sI s 5), .int (sI s 6), .int (sI s 7), .int (sI s 8), .int (sI s 9), .int (sI s 10)])) = cW ad κ (uI s 4 v) := by
  refine cW_set ad κ s (by decide) rfl (fun j hj hn => cE_cong ad κ (fun _ => rfl) (fun _ => rfl) (fun _ => rfl) (fun k hk => ?_))
  rw [sI_uI, if_neg]
  rcases hk with h1 | h1 | h1 | ⟨h1, i, h2⟩ | ⟨h1, i, h2⟩ <;> omega
theorem cu_Ropen (v : Int32) : (cW ad κ s).set 72 (ad 72, .inr (3, [.ref (ad 70), .ref (ad 73), .ref (ad 33), .ref (ad 74), .ref (ad 75), .ref (ad 76), .ref (ad 77), .int (sI s 3), .int (sI s 4), .int v, .int (sI s 6), .int (sI s 7), .int (sI s 8), .int (sI s 9), .int (sI s 10)])) = cW ad κ (uI s 5 v) := by
  refine cW_set ad κ s (by decide) rfl (fun j hj hn => cE_cong ad κ (fun _ => rfl) (fun _ => rfl) (fun _ => rfl) (fun k hk => ?_))
  rw [sI_uI, if_neg]
  rcases hk with h1 | h1 | h1 | ⟨h1, i, h2⟩ | ⟨h1, i, h2⟩ <;> omega
theorem cu_Rtarget (v : Int32) : (cW ad κ s).set 72 (ad 72, .inr (3, [.ref (ad 70), .ref (ad 73), .ref (ad 33), .ref (ad 74), .ref (ad 75), .ref (ad 76), .ref (ad 77), .int (sI s 3), .int (sI s 4), .int (sI s 5), .int v, .int (sI s 7), .int (sI s 8), .int (sI s 9), .int (sI s 10)])) = cW ad κ (uI s 6 v) := by
  refine cW_set ad κ s (by decide) rfl (fun j hj hn => cE_cong ad κ (fun _ => rfl) (fun _ => rfl) (fun _ => rfl) (fun k hk => ?_))
  rw [sI_uI, if_neg]
  rcases hk with h1 | h1 | h1 | ⟨h1, i, h2⟩ | ⟨h1, i, h2⟩ <;> omega
theorem cu_Rfirst (v : Int32) : (cW ad κ s).set 72 (ad 72, .inr (3, [.ref (ad 70), .ref (ad 73), .ref (ad 33), .ref (ad 74), .ref (ad 75), .ref (ad 76), .ref (ad 77), .int (sI s 3), .int (sI s 4), .int (sI s 5), .int (sI s 6), .int v, .int (sI s 8), .int (sI s 9), .int (sI s 10)])) = cW ad κ (uI s 7 v) := by
  refine cW_set ad κ s (by decide) rfl (fun j hj hn => cE_cong ad κ (fun _ => rfl) (fun _ => rfl) (fun _ => rfl) (fun k hk => ?_))
  rw [sI_uI, if_neg]
  rcases hk with h1 | h1 | h1 | ⟨h1, i, h2⟩ | ⟨h1, i, h2⟩ <;> omega
theorem cu_Rstatements (v : Int32) : (cW ad κ s).set 72 (ad 72, .inr (3, [.ref (ad 70), .ref (ad 73), .ref (ad 33), .ref (ad 74), .ref (ad 75), .ref (ad 76), .ref (ad 77), .int (sI s 3), .int (sI s 4), .int (sI s 5), .int (sI s 6), .int (sI s 7), .int v, .int (sI s 9), .int (sI s 10)])) = cW ad κ (uI s 8 v) := by
  refine cW_set ad κ s (by decide) rfl (fun j hj hn => cE_cong ad κ (fun _ => rfl) (fun _ => rfl) (fun _ => rfl) (fun k hk => ?_))
  rw [sI_uI, if_neg]
  rcases hk with h1 | h1 | h1 | ⟨h1, i, h2⟩ | ⟨h1, i, h2⟩ <;> omega
theorem cu_Rkind (v : Int32) : (cW ad κ s).set 72 (ad 72, .inr (3, [.ref (ad 70), .ref (ad 73), .ref (ad 33), .ref (ad 74), .ref (ad 75), .ref (ad 76), .ref (ad 77), .int (sI s 3), .int (sI s 4), .int (sI s 5), .int (sI s 6), .int (sI s 7), .int (sI s 8), .int v, .int (sI s 10)])) = cW ad κ (uI s 9 v) := by
  refine cW_set ad κ s (by decide) rfl (fun j hj hn => cE_cong ad κ (fun _ => rfl) (fun _ => rfl) (fun _ => rfl) (fun k hk => ?_))
  rw [sI_uI, if_neg]
  rcases hk with h1 | h1 | h1 | ⟨h1, i, h2⟩ | ⟨h1, i, h2⟩ <;> omega
theorem cu_Rplace (v : Int32) : (cW ad κ s).set 72 (ad 72, .inr (3, [.ref (ad 70), .ref (ad 73), .ref (ad 33), .ref (ad 74), .ref (ad 75), .ref (ad 76), .ref (ad 77), .int (sI s 3), .int (sI s 4), .int (sI s 5), .int (sI s 6), .int (sI s 7), .int (sI s 8), .int (sI s 9), .int v])) = cW ad κ (uI s 10 v) := by
  refine cW_set ad κ s (by decide) rfl (fun j hj hn => cE_cong ad κ (fun _ => rfl) (fun _ => rfl) (fun _ => rfl) (fun k hk => ?_))
  rw [sI_uI, if_neg]
  rcases hk with h1 | h1 | h1 | ⟨h1, i, h2⟩ | ⟨h1, i, h2⟩ <;> omega
theorem cu_SIGN (i : Nat) (v : Int32) : (cW ad κ s).set 76 (ad 76, ir (κ 3) 9 (upd (fun i => sI s (11 + 2 * i)) i v)) = cW ad κ (uI s (11 + 2 * i) v) := by
  refine cW_set ad κ s (by decide) ?_ (fun j hj hn => cE_cong ad κ (fun _ => rfl) (fun _ => rfl) (fun _ => rfl) (fun k hk => ?_))
  · show ir (κ 3) 9 _ = ir (κ 3) 9 _
    congr 3
    funext j
    show (if j = i then v else sI s (11 + 2 * j)) = _
    rw [sI_uI]
    by_cases e : j = i
    · rw [if_pos e, if_pos (by omega)]
    · rw [if_neg e, if_neg (by omega)]
  · rw [sI_uI, if_neg]
    rcases hk with h1 | h1 | h1 | ⟨h1, i, h2⟩ | ⟨h1, i, h2⟩ <;> omega
theorem cu_BEGUN (i : Nat) (v : Int32) : (cW ad κ s).set 77 (ad 77, ir (κ 4) 9 (upd (fun i => sI s (12 + 2 * i)) i v)) = cW ad κ (uI s (12 + 2 * i) v) := by
  refine cW_set ad κ s (by decide) ?_ (fun j hj hn => cE_cong ad κ (fun _ => rfl) (fun _ => rfl) (fun _ => rfl) (fun k hk => ?_))
  · show ir (κ 4) 9 _ = ir (κ 4) 9 _
    congr 3
    funext j
    show (if j = i then v else sI s (12 + 2 * j)) = _
    rw [sI_uI]
    by_cases e : j = i
    · rw [if_pos e, if_pos (by omega)]
    · rw [if_neg e, if_neg (by omega)]
  · rw [sI_uI, if_neg]
    rcases hk with h1 | h1 | h1 | ⟨h1, i, h2⟩ | ⟨h1, i, h2⟩ <;> omega
theorem cu_BYTE (i : Nat) (v : Int32) : (cW ad κ s).set 71 (ad 71, ir (κ 2) 200 (upd (sT s) i v)) = cW ad κ (uT s i v) :=
  cW_set ad κ s (by decide) rfl (fun j hj hn => cE_cong ad κ (fun _ => rfl) (fun _ => rfl) (fun h => absurd h hn) (fun _ _ => rfl))
end CWO
