/-! ===== the reference's state, and the cells that hold it =====
rows of flags: 0 to 7 the sets, 8 before, 9 + 7 * g + i the family's (g = 0) and the next one's (g = 1), 23 united, 24 + i the pile's, 64, 65, 66 left, right, spare;
the ints: thrown, keptMany, nextMany, textMany, high, at, open, errorKind, errorPlace; and the text -/
theorem mR_vR (s : mS) (n k a b : Nat) (v : Int32) : mR (vR s n k v) a b = if a = n then (if b = k then v else mR s n b) else mR s a b := by
  show va_up s.1 n (upd (s.1 n) k v) a b = _
  unfold va_up
  by_cases h : a = n
  · rw [if_pos h, if_pos h]; rfl
  · rw [if_neg h, if_neg h]; rfl
theorem mR_vI (s : mS) (k a b : Nat) (v : Int32) : mR (vI s k v) a b = mR s a b := rfl
theorem mR_vT (s : mS) (k a b : Nat) (v : Int32) : mR (vT s k v) a b = mR s a b := rfl
theorem mI_vR (s : mS) (n k a : Nat) (v : Int32) : mI (vR s n k v) a = mI s a := rfl
theorem mI_vI (s : mS) (k a : Nat) (v : Int32) : mI (vI s k v) a = if a = k then v else mI s a := rfl
theorem mI_vT (s : mS) (k a : Nat) (v : Int32) : mI (vT s k v) a = mI s a := rfl
theorem mT_vR (s : mS) (n k a : Nat) (v : Int32) : mT (vR s n k v) a = mT s a := rfl
theorem mT_vI (s : mS) (k a : Nat) (v : Int32) : mT (vI s k v) a = mT s a := rfl
theorem mT_vT (s : mS) (k a : Nat) (v : Int32) : mT (vT s k v) a = if a = k then v else mT s a := rfl
/-- the cell of each place -/
def mE (bd : Nat → Nat) (κ : Nat → ClassId) (s : mS) (k : Nat) : va_E :=
  if k < 67 then ir (κ 4) 102 (mR s k)
  else if k = 67 then .inr (8, [.int (mI s 0), .ref (bd 68), .ref (bd 8), .ref (bd 69), .ref (bd 70), .int (mI s 1), .int (mI s 2), .ref (bd 23), .ref (bd 72), .int (mI s 3), .ref (bd 71), .int (mI s 4), .int (mI s 5), .int (mI s 6), .int (mI s 7), .int (mI s 8), .ref (bd 64), .ref (bd 65), .ref (bd 66)])
  else if k = 68 then qr (κ 5) 8 (fun i => bd i)
  else if k < 71 then qr (κ 5) 7 (fun i => bd (9 + 7 * (k - 69) + i))
  else if k = 71 then qr (κ 5) 40 (fun i => bd (24 + i))
  else ir (κ 3) 200 (mT s)
def mW (bd : Nat → Nat) (κ : Nat → ClassId) (s : mS) : va_W := (List.range 73).map (fun k => (bd k, mE bd κ s k))
section MWO
variable (bd : Nat → Nat) (κ : Nat → ClassId) (s : mS)
theorem mW_WA : WA (mW bd κ) := fun st st' => by simp [mW]
theorem mW_at {k : Nat} (h : k < 73) : (mW bd κ s)[k]? = some (bd k, mE bd κ s k) := by simp [mW, h]
theorem mW_set {s' : mS} {k : Nat} {e : va_E} (h : k < 73) (he : e = mE bd κ s' k) (ho : ∀ j, j < 73 → j ≠ k → mE bd κ s j = mE bd κ s' j) : (mW bd κ s).set k (bd k, e) = mW bd κ s' := by
  apply List.ext_getElem?
  intro j
  by_cases hj : j < 73
  · rw [mW_at bd κ s' hj]
    by_cases hk : j = k
    · subst hk
      rw [List.getElem?_set_self (by simp [mW]; exact h), he]
    · rw [List.getElem?_set_ne (Ne.symm hk), mW_at bd κ s hj, ho j hj hk]
  · rw [List.getElem?_eq_none (by simp [mW]; omega), List.getElem?_eq_none (by simp [mW]; omega)]
theorem mw_ROW {n : Nat} (h : n < 67) : (mW bd κ s)[n]? = some (bd n, ir (κ 4) 102 (mR s n)) := by
  rw [mW_at bd κ s (Nat.lt_trans h (by decide))]; simp only [mE, h, if_true]
theorem mw_MO : (mW bd κ s)[67]? = some (bd 67, .inr (8, [.int (mI s 0), .ref (bd 68), .ref (bd 8), .ref (bd 69), .ref (bd 70), .int (mI s 1), .int (mI s 2), .ref (bd 23), .ref (bd 72), .int (mI s 3), .ref (bd 71), .int (mI s 4), .int (mI s 5), .int (mI s 6), .int (mI s 7), .int (mI s 8), .ref (bd 64), .ref (bd 65), .ref (bd 66)])) := mW_at bd κ s (by decide)
theorem mw_SETSG : (mW bd κ s)[68]? = some (bd 68, qr (κ 5) 8 (fun i => bd i)) := mW_at bd κ s (by decide)
theorem mw_GRID {g : Nat} (h : g < 2) : (mW bd κ s)[69 + g]? = some (bd (69 + g), qr (κ 5) 7 (fun i => bd (9 + 7 * g + i))) := by
  rw [mW_at bd κ s (by omega)]
  simp only [mE, show ¬ 69 + g < 67 by omega, show ¬ 69 + g = 67 by omega, show ¬ 69 + g = 68 by omega, show 69 + g < 71 by omega, if_true, if_false, Nat.add_sub_cancel_left]
theorem mw_PILEG : (mW bd κ s)[71]? = some (bd 71, qr (κ 5) 40 (fun i => bd (24 + i))) := mW_at bd κ s (by decide)
theorem mw_MTEXT : (mW bd κ s)[72]? = some (bd 72, ir (κ 3) 200 (mT s)) := mW_at bd κ s (by decide)
theorem mE_cong {s s' : mS} {j : Nat} (hj : j < 73) (hR : j < 67 → mR s j = mR s' j) (hT : j = 72 → mT s = mT s') (hI : j = 67 → ∀ k, k < 9 → mI s k = mI s' k) : mE bd κ s j = mE bd κ s' j := by
  unfold mE
  by_cases h0 : j < 67
  · rw [if_pos h0, if_pos h0, hR h0]
  rw [if_neg h0, if_neg h0]
  by_cases h1 : j = 67
  · have q := hI h1
    rw [if_pos h1, if_pos h1, q 0 (by decide), q 1 (by decide), q 2 (by decide), q 3 (by decide), q 4 (by decide), q 5 (by decide), q 6 (by decide), q 7 (by decide), q 8 (by decide)]
  rw [if_neg h1, if_neg h1]
  by_cases h2 : j = 68
  · rw [if_pos h2, if_pos h2]
  rw [if_neg h2, if_neg h2]
  by_cases h3 : j < 71
  · rw [if_pos h3, if_pos h3]
  rw [if_neg h3, if_neg h3]
  by_cases h4 : j = 71
  · rw [if_pos h4, if_pos h4]
  rw [if_neg h4, if_neg h4]
  rw [hT (by omega)]
theorem mu_thrown (v : Int32) : (mW bd κ s).set 67 (bd 67, .inr (8, [.int v, .ref (bd 68), .ref (bd 8), .ref (bd 69), .ref (bd 70), .int (mI s 1), .int (mI s 2), .ref (bd 23), .ref (bd 72), .int (mI s 3), .ref (bd 71), .int (mI s 4), .int (mI s 5), .int (mI s 6), .int (mI s 7), .int (mI s 8), .ref (bd 64), .ref (bd 65), .ref (bd 66)])) = mW bd κ (vI s 0 v) := by
  refine mW_set bd κ s (by decide) rfl (fun j hj hn => mE_cong bd κ hj (fun _ => rfl) (fun _ => rfl) (fun h => absurd h hn))
theorem mu_keptMany (v : Int32) : (mW bd κ s).set 67 (bd 67, .inr (8, [.int (mI s 0), .ref (bd 68), .ref (bd 8), .ref (bd 69), .ref (bd 70), .int v, .int (mI s 2), .ref (bd 23), .ref (bd 72), .int (mI s 3), .ref (bd 71), .int (mI s 4), .int (mI s 5), .int (mI s 6), .int (mI s 7), .int (mI s 8), .ref (bd 64), .ref (bd 65), .ref (bd 66)])) = mW bd κ (vI s 1 v) := by
  refine mW_set bd κ s (by decide) rfl (fun j hj hn => mE_cong bd κ hj (fun _ => rfl) (fun _ => rfl) (fun h => absurd h hn))
theorem mu_nextMany (v : Int32) : (mW bd κ s).set 67 (bd 67, .inr (8, [.int (mI s 0), .ref (bd 68), .ref (bd 8), .ref (bd 69), .ref (bd 70), .int (mI s 1), .int v, .ref (bd 23), .ref (bd 72), .int (mI s 3), .ref (bd 71), .int (mI s 4), .int (mI s 5), .int (mI s 6), .int (mI s 7), .int (mI s 8), .ref (bd 64), .ref (bd 65), .ref (bd 66)])) = mW bd κ (vI s 2 v) := by
  refine mW_set bd κ s (by decide) rfl (fun j hj hn => mE_cong bd κ hj (fun _ => rfl) (fun _ => rfl) (fun h => absurd h hn))
theorem mu_textMany (v : Int32) : (mW bd κ s).set 67 (bd 67, .inr (8, [.int (mI s 0), .ref (bd 68), .ref (bd 8), .ref (bd 69), .ref (bd 70), .int (mI s 1), .int (mI s 2), .ref (bd 23), .ref (bd 72), .int v, .ref (bd 71), .int (mI s 4), .int (mI s 5), .int (mI s 6), .int (mI s 7), .int (mI s 8), .ref (bd 64), .ref (bd 65), .ref (bd 66)])) = mW bd κ (vI s 3 v) := by
  refine mW_set bd κ s (by decide) rfl (fun j hj hn => mE_cong bd κ hj (fun _ => rfl) (fun _ => rfl) (fun h => absurd h hn))
theorem mu_high (v : Int32) : (mW bd κ s).set 67 (bd 67, .inr (8, [.int (mI s 0), .ref (bd 68), .ref (bd 8), .ref (bd 69), .ref (bd 70), .int (mI s 1), .int (mI s 2), .ref (bd 23), .ref (bd 72), .int (mI s 3), .ref (bd 71), .int v, .int (mI s 5), .int (mI s 6), .int (mI s 7), .int (mI s 8), .ref (bd 64), .ref (bd 65), .ref (bd 66)])) = mW bd κ (vI s 4 v) := by
  refine mW_set bd κ s (by decide) rfl (fun j hj hn => mE_cong bd κ hj (fun _ => rfl) (fun _ => rfl) (fun h => absurd h hn))
theorem mu_at (v : Int32) : (mW bd κ s).set 67 (bd 67, .inr (8, [.int (mI s 0), .ref (bd 68), .ref (bd 8), .ref (bd 69), .ref (bd 70), .int (mI s 1), .int (mI s 2), .ref (bd 23), .ref (bd 72), .int (mI s 3), .ref (bd 71), .int (mI s 4), .int v, .int (mI s 6), .int (mI s 7), .int (mI s 8), .ref (bd 64), .ref (bd 65), .ref (bd 66)])) = mW bd κ (vI s 5 v) := by
  refine mW_set bd κ s (by decide) rfl (fun j hj hn => mE_cong bd κ hj (fun _ => rfl) (fun _ => rfl) (fun h => absurd h hn))
theorem mu_open (v : Int32) : (mW bd κ s).set 67 (bd 67, .inr (8, [.int (mI s 0), .ref (bd 68), .ref (bd 8), .ref (bd 69), .ref (bd 70), .int (mI s 1), .int (mI s 2), .ref (bd 23), .ref (bd 72), .int (mI s 3), .ref (bd 71), .int (mI s 4), .int (mI s 5), .int v, .int (mI s 7), .int (mI s 8), .ref (bd 64), .ref (bd 65), .ref (bd 66)])) = mW bd κ (vI s 6 v) := by
  refine mW_set bd κ s (by decide) rfl (fun j hj hn => mE_cong bd κ hj (fun _ => rfl) (fun _ => rfl) (fun h => absurd h hn))
theorem mu_errorKind (v : Int32) : (mW bd κ s).set 67 (bd 67, .inr (8, [.int (mI s 0), .ref (bd 68), .ref (bd 8), .ref (bd 69), .ref (bd 70), .int (mI s 1), .int (mI s 2), .ref (bd 23), .ref (bd 72), .int (mI s 3), .ref (bd 71), .int (mI s 4), .int (mI s 5), .int (mI s 6), .int v, .int (mI s 8), .ref (bd 64), .ref (bd 65), .ref (bd 66)])) = mW bd κ (vI s 7 v) := by
  refine mW_set bd κ s (by decide) rfl (fun j hj hn => mE_cong bd κ hj (fun _ => rfl) (fun _ => rfl) (fun h => absurd h hn))
theorem mu_errorPlace (v : Int32) : (mW bd κ s).set 67 (bd 67, .inr (8, [.int (mI s 0), .ref (bd 68), .ref (bd 8), .ref (bd 69), .ref (bd 70), .int (mI s 1), .int (mI s 2), .ref (bd 23), .ref (bd 72), .int (mI s 3), .ref (bd 71), .int (mI s 4), .int (mI s 5), .int (mI s 6), .int (mI s 7), .int v, .ref (bd 64), .ref (bd 65), .ref (bd 66)])) = mW bd κ (vI s 8 v) := by
  refine mW_set bd κ s (by decide) rfl (fun j hj hn => mE_cong bd κ hj (fun _ => rfl) (fun _ => rfl) (fun h => absurd h hn))
theorem mu_ROW {n : Nat} (h : n < 67) (k : Nat) (v : Int32) : (mW bd κ s).set n (bd n, ir (κ 4) 102 (upd (mR s n) k v)) = mW bd κ (vR s n k v) := by
  refine mW_set bd κ s (Nat.lt_trans h (by decide)) ?_ (fun j hj hn => mE_cong bd κ hj (fun _ => ?_) (fun _ => rfl) (fun _ _ _ => rfl))
  · simp only [mE, h, if_true]
    rw [show mR (vR s n k v) n = upd (mR s n) k v from funext fun j => by rw [mR_vR, if_pos rfl]; rfl]
  · funext b
    rw [mR_vR, if_neg hn]
theorem mu_TEXT (k : Nat) (v : Int32) : (mW bd κ s).set 72 (bd 72, ir (κ 3) 200 (upd (mT s) k v)) = mW bd κ (vT s k v) :=
  mW_set bd κ s (by decide) rfl (fun j hj hn => mE_cong bd κ hj (fun _ => rfl) (fun h => absurd h hn) (fun _ _ _ => rfl))
end MWO
