/-! ===== from what the constructors make to the worlds ===== -/
def s0 : cS := (fun _ => 0, fun _ => 0, fun k => if k = 10 then -1 else 0, fun _ => 0)
def m0 : mS := (fun _ _ => 0, fun _ => 0, fun _ => 0)
def evq (e e' : va_E) : Prop := e = e' ∨ (∃ (cA : ClassId) (n : Nat) (f g : Nat → Int32), e = .inl (cA, n, .inl f) ∧ e' = .inl (cA, n, .inl g) ∧ ∀ i, i < n → f i = g i) ∨ (∃ (cA : ClassId) (n : Nat) (f g : Nat → Option Nat), e = .inl (cA, n, .inr (.inr (.inr (.inr f)))) ∧ e' = .inl (cA, n, .inr (.inr (.inr (.inr g)))) ∧ ∀ i, i < n → f i = g i)
theorem arrV_congr {cA : ClassId} {n : Nat} {f g : Nat → Value} (h : ∀ i, i < n → f i = g i) : arrV cA n f = arrV cA n g := by
  unfold arrV
  have : (fun j : Fin n => f j.val) = fun j : Fin n => g j.val := funext fun j => h j.val j.isLt
  rw [this]
theorem evq.at {e e' : va_E} (h : evq e e') {D : va_G} {cl : List vw_C} {a : Nat} {H : Heap} (k : va_at D cl (a, e) H) : va_at D cl (a, e') H := by
  rcases h with rfl | ⟨cA, n, f, g, rfl, rfl, h⟩ | ⟨cA, n, f, g, rfl, rfl, h⟩
  · exact k
  · have k : H[a]? = some (arrV cA n (fun j => .int (f j))) := k
    show H[a]? = some (arrV cA n (fun j => .int (g j)))
    rw [k, arrV_congr (fun i hi => by rw [h i hi])]
  · have k : H[a]? = some (arrV cA n (fun j => va_rf (f j))) := k
    show H[a]? = some (arrV cA n (fun j => va_rf (g j)))
    rw [k, arrV_congr (fun i hi => by rw [h i hi])]
section
variable {D : va_G} {cl : List vw_C} {A : Nat → Prop} {H : Heap} {P ws : va_W} {n : Nat} {a : Nat → Nat} {f : Nat → va_E}
theorem rg_at {k : Nat} {q : Nat × va_E} (hk : ((List.range n).map (fun k => (a k, f k)))[k]? = some q) : k < n ∧ q = (a k, f k) := by
  have h1 := (List.getElem?_eq_some_iff.mp hk).1
  have h2 : k < n := by simpa using h1
  refine ⟨h2, ?_⟩
  rw [List.getElem?_map, List.getElem?_range h2] at hk
  exact (Option.some.inj hk).symm
theorem P_perm (hP : va_P D cl (P ++ ws) H) (π : Nat → Nat) (h : ∀ k, k < n → ∃ e, ws[π k]? = some (a k, e) ∧ evq e (f k)) : va_P D cl (P ++ (List.range n).map (fun k => (a k, f k))) H := by
  intro k q hk
  by_cases c : k < P.length
  · rw [List.getElem?_append_left c] at hk
    exact hP k q (by rw [List.getElem?_append_left c]; exact hk)
  · rw [List.getElem?_append_right (by omega)] at hk
    obtain ⟨h1, rfl⟩ := rg_at hk
    obtain ⟨e, h2, h3⟩ := h _ h1
    exact h3.at (hP (P.length + π (k - P.length)) _ (by rw [List.getElem?_append_right (by omega), Nat.add_sub_cancel_left]; exact h2))
theorem D_perm (hD : va_D A (P ++ ws)) (π : Nat → Nat) (hπ : ∀ i j, i < n → j < n → π i = π j → i = j) (h : ∀ k, k < n → ∃ e, ws[π k]? = some (a k, e) ∧ evq e (f k)) : va_D A (P ++ (List.range n).map (fun k => (a k, f k))) := by
  have key : ∀ (k : Nat) (q : Nat × va_E), (P ++ (List.range n).map (fun k => (a k, f k)))[k]? = some q → ∃ e, (P ++ ws)[if k < P.length then k else P.length + π (k - P.length)]? = some (q.1, e) ∧ (k < P.length ∨ k - P.length < n) := by
    intro k q hk
    by_cases c : k < P.length
    · rw [if_pos c]
      rw [List.getElem?_append_left c] at hk
      exact ⟨q.2, by rw [List.getElem?_append_left c]; exact hk, Or.inl c⟩
    · rw [if_neg c]
      rw [List.getElem?_append_right (by omega)] at hk
      obtain ⟨h1, rfl⟩ := rg_at hk
      obtain ⟨e, h2, -⟩ := h _ h1
      exact ⟨e, by rw [List.getElem?_append_right (by omega), Nat.add_sub_cancel_left]; exact h2, Or.inr h1⟩
  refine ⟨fun i j p q hi hj hpq => ?_, fun k q hk => ?_⟩
  · obtain ⟨e1, h1, b1⟩ := key i p hi
    obtain ⟨e2, h2, b2⟩ := key j q hj
    have h3 := hD.1 _ _ _ _ h1 h2 hpq
    by_cases c1 : i < P.length
    · by_cases c2 : j < P.length
      · rw [if_pos c1, if_pos c2] at h3; exact h3
      · rw [if_pos c1, if_neg c2] at h3; omega
    · by_cases c2 : j < P.length
      · rw [if_neg c1, if_pos c2] at h3; omega
      · rw [if_neg c1, if_neg c2] at h3
        have := hπ _ _ (b1.resolve_left c1) (b2.resolve_left c2) (by omega)
        omega
  · obtain ⟨e1, h1, -⟩ := key k q hk
    have h9 := hD.2 _ _ h1
    exact h9
end
def piC : List Nat := [3, 5, 7, 9, 11, 13, 15, 17, 21, 22, 23, 24, 25, 26, 27, 28, 31, 32, 33, 34, 35, 36, 37, 38, 39, 44, 45, 46, 47, 48, 49, 50, 51, 52, 55, 57, 59, 61, 63, 65, 67, 69, 71, 56, 58, 60, 62, 64, 66, 68, 70, 72, 76, 77, 78, 0, 1, 2, 4, 6, 8, 10, 12, 14, 16, 18, 19, 29, 20, 30, 40, 41, 42, 43, 53, 54, 73, 74, 75]
theorem piC_inj : ∀ i, i < 79 → ∀ j, j < 79 → piC.getD i 0 = piC.getD j 0 → i = j := by decide +kernel
set_option maxRecDepth 100000 in
set_option maxHeartbeats 4000000 in
theorem toC {κ : Nat → ClassId} {w1 : va_W} (h : ∃ q : Nat, ∃ a1 a2 a3 a4 a5 a6 a7 a8 a9 a10 a11 a12 a13 a14 a15 a16 a17 a18 a19 a20 a21 a22 a23 a24 a25 a26 a27 a28 a29 a30 a31 a32 a33 a34 a35 a36 a37 a38 a39 a40 a41 a42 a43 a44 a45 a46 a47 a48 a49 a50 a51 a52 a53 a54 a55 a56 a57 a58 a59 a60 a61 a62 a63 a64 a65 a66 a67 a68 a69 a70 a71 a72 a73 a74 a75 a76 a77 a78 : Nat, w1 = [(q, .inr (7, [.ref a1, .ref a2, .ref a19, .ref a29, .ref a39, .ref a40, .ref a42, .ref a75])), cAR (κ 0) a1 8 [a3, a5, a7, a9, a11, a13, a15, a17], cAR (κ 1) a2 8 [a4, a6, a8, a10, a12, a14, a16, a18], cMS a3, (a4, .inr (5, [.ref a3])), cMS a5, (a6, .inr (5, [.ref a5])), cMS a7, (a8, .inr (5, [.ref a7])), cMS a9, (a10, .inr (5, [.ref a9])), cMS a11, (a12, .inr (5, [.ref a11])), cMS a13, (a14, .inr (5, [.ref a13])), cMS a15, (a16, .inr (5, [.ref a15])), cMS a17, (a18, .inr (5, [.ref a17])), (a19, .inr (0, [.ref a20, .ref a28, .int 0])), cAR (κ 0) a20 7 [a21, a22, a23, a24, a25, a26, a27], cMS a21, cMS a22, cMS a23, cMS a24, cMS a25, cMS a26, cMS a27, cMS a28, (a29, .inr (0, [.ref a30, .ref a38, .int 0])), cAR (κ 0) a30 7 [a31, a32, a33, a34, a35, a36, a37], cMS a31, cMS a32, cMS a33, cMS a34, cMS a35, cMS a36, cMS a37, cMS a38, cMS a39, (a40, .inr (4, [.ref a41, .int 0])), cIA (κ 2) a41 200, (a42, .inr (3, [.ref a40, .ref a43, .ref a52, .ref a53, .ref a54, .ref a73, .ref a74, .int 0, .int 0, .int 0, .int 0, .int 0, .int 0, .int 0, .int (-1)])), cAR (κ 0) a43 8 [a44, a45, a46, a47, a48, a49, a50, a51], cMS a44, cMS a45, cMS a46, cMS a47, cMS a48, cMS a49, cMS a50, cMS a51, cMS a52, cAR (κ 0) a53 9 [a55, a57, a59, a61, a63, a65, a67, a69, a71], cAR (κ 0) a54 9 [a56, a58, a60, a62, a64, a66, a68, a70, a72], cMS a55, cMS a56, cMS a57, cMS a58, cMS a59, cMS a60, cMS a61, cMS a62, cMS a63, cMS a64, cMS a65, cMS a66, cMS a67, cMS a68, cMS a69, cMS a70, cMS a71, cMS a72, cIA (κ 3) a73 9, cIA (κ 4) a74 9, (a75, .inr (1, [.ref a76, .ref a77, .ref a78])), cMS a76, cMS a77, cMS a78]) : ∃ ad : Nat → Nat, ∀ k, k < 79 → ∃ e, w1[piC.getD k 0]? = some (ad k, e) ∧ evq e (cE ad κ s0 k) := by
  obtain ⟨q, a1, a2, a3, a4, a5, a6, a7, a8, a9, a10, a11, a12, a13, a14, a15, a16, a17, a18, a19, a20, a21, a22, a23, a24, a25, a26, a27, a28, a29, a30, a31, a32, a33, a34, a35, a36, a37, a38, a39, a40, a41, a42, a43, a44, a45, a46, a47, a48, a49, a50, a51, a52, a53, a54, a55, a56, a57, a58, a59, a60, a61, a62, a63, a64, a65, a66, a67, a68, a69, a70, a71, a72, a73, a74, a75, a76, a77, a78, rfl⟩ := h
  refine ⟨fun k => ([a3, a5, a7, a9, a11, a13, a15, a17, a21, a22, a23, a24, a25, a26, a27, a28, a31, a32, a33, a34, a35, a36, a37, a38, a39, a44, a45, a46, a47, a48, a49, a50, a51, a52, a55, a57, a59, a61, a63, a65, a67, a69, a71, a56, a58, a60, a62, a64, a66, a68, a70, a72, a76, a77, a78, q, a1, a2, a4, a6, a8, a10, a12, a14, a16, a18, a19, a29, a20, a30, a40, a41, a42, a43, a53, a54, a73, a74, a75] : List Nat).getD k 0, ?_⟩
  intro k hk
  exact match k, hk with
    | 0, _ => ⟨_, rfl, Or.inl rfl⟩
    | 1, _ => ⟨_, rfl, Or.inl rfl⟩
    | 2, _ => ⟨_, rfl, Or.inl rfl⟩
    | 3, _ => ⟨_, rfl, Or.inl rfl⟩
    | 4, _ => ⟨_, rfl, Or.inl rfl⟩
    | 5, _ => ⟨_, rfl, Or.inl rfl⟩
    | 6, _ => ⟨_, rfl, Or.inl rfl⟩
    | 7, _ => ⟨_, rfl, Or.inl rfl⟩
    | 8, _ => ⟨_, rfl, Or.inl rfl⟩
    | 9, _ => ⟨_, rfl, Or.inl rfl⟩
    | 10, _ => ⟨_, rfl, Or.inl rfl⟩
    | 11, _ => ⟨_, rfl, Or.inl rfl⟩
    | 12, _ => ⟨_, rfl, Or.inl rfl⟩
    | 13, _ => ⟨_, rfl, Or.inl rfl⟩
    | 14, _ => ⟨_, rfl, Or.inl rfl⟩
    | 15, _ => ⟨_, rfl, Or.inl rfl⟩
    | 16, _ => ⟨_, rfl, Or.inl rfl⟩
    | 17, _ => ⟨_, rfl, Or.inl rfl⟩
    | 18, _ => ⟨_, rfl, Or.inl rfl⟩
    | 19, _ => ⟨_, rfl, Or.inl rfl⟩
    | 20, _ => ⟨_, rfl, Or.inl rfl⟩
    | 21, _ => ⟨_, rfl, Or.inl rfl⟩
    | 22, _ => ⟨_, rfl, Or.inl rfl⟩
    | 23, _ => ⟨_, rfl, Or.inl rfl⟩
    | 24, _ => ⟨_, rfl, Or.inl rfl⟩
    | 25, _ => ⟨_, rfl, Or.inl rfl⟩
    | 26, _ => ⟨_, rfl, Or.inl rfl⟩
    | 27, _ => ⟨_, rfl, Or.inl rfl⟩
    | 28, _ => ⟨_, rfl, Or.inl rfl⟩
    | 29, _ => ⟨_, rfl, Or.inl rfl⟩
    | 30, _ => ⟨_, rfl, Or.inl rfl⟩
    | 31, _ => ⟨_, rfl, Or.inl rfl⟩
    | 32, _ => ⟨_, rfl, Or.inl rfl⟩
    | 33, _ => ⟨_, rfl, Or.inl rfl⟩
    | 34, _ => ⟨_, rfl, Or.inl rfl⟩
    | 35, _ => ⟨_, rfl, Or.inl rfl⟩
    | 36, _ => ⟨_, rfl, Or.inl rfl⟩
    | 37, _ => ⟨_, rfl, Or.inl rfl⟩
    | 38, _ => ⟨_, rfl, Or.inl rfl⟩
    | 39, _ => ⟨_, rfl, Or.inl rfl⟩
    | 40, _ => ⟨_, rfl, Or.inl rfl⟩
    | 41, _ => ⟨_, rfl, Or.inl rfl⟩
    | 42, _ => ⟨_, rfl, Or.inl rfl⟩
    | 43, _ => ⟨_, rfl, Or.inl rfl⟩
    | 44, _ => ⟨_, rfl, Or.inl rfl⟩
    | 45, _ => ⟨_, rfl, Or.inl rfl⟩
    | 46, _ => ⟨_, rfl, Or.inl rfl⟩
    | 47, _ => ⟨_, rfl, Or.inl rfl⟩
    | 48, _ => ⟨_, rfl, Or.inl rfl⟩
    | 49, _ => ⟨_, rfl, Or.inl rfl⟩
    | 50, _ => ⟨_, rfl, Or.inl rfl⟩
    | 51, _ => ⟨_, rfl, Or.inl rfl⟩
    | 52, _ => ⟨_, rfl, Or.inl rfl⟩
    | 53, _ => ⟨_, rfl, Or.inl rfl⟩
    | 54, _ => ⟨_, rfl, Or.inl rfl⟩
    | 55, _ => ⟨_, rfl, Or.inl rfl⟩
    | 56, _ => ⟨_, rfl, Or.inr (Or.inr ⟨_, _, _, _, rfl, rfl, (fun i hi => match i, hi with
      | 0, _ => rfl
      | 1, _ => rfl
      | 2, _ => rfl
      | 3, _ => rfl
      | 4, _ => rfl
      | 5, _ => rfl
      | 6, _ => rfl
      | 7, _ => rfl
      | k + 8, h => absurd h (by omega))⟩)⟩
    | 57, _ => ⟨_, rfl, Or.inr (Or.inr ⟨_, _, _, _, rfl, rfl, (fun i hi => match i, hi with
      | 0, _ => rfl
      | 1, _ => rfl
      | 2, _ => rfl
      | 3, _ => rfl
      | 4, _ => rfl
      | 5, _ => rfl
      | 6, _ => rfl
      | 7, _ => rfl
      | k + 8, h => absurd h (by omega))⟩)⟩
    | 58, _ => ⟨_, rfl, Or.inl rfl⟩
    | 59, _ => ⟨_, rfl, Or.inl rfl⟩
    | 60, _ => ⟨_, rfl, Or.inl rfl⟩
    | 61, _ => ⟨_, rfl, Or.inl rfl⟩
    | 62, _ => ⟨_, rfl, Or.inl rfl⟩
    | 63, _ => ⟨_, rfl, Or.inl rfl⟩
    | 64, _ => ⟨_, rfl, Or.inl rfl⟩
    | 65, _ => ⟨_, rfl, Or.inl rfl⟩
    | 66, _ => ⟨_, rfl, Or.inl rfl⟩
    | 67, _ => ⟨_, rfl, Or.inl rfl⟩
    | 68, _ => ⟨_, rfl, Or.inr (Or.inr ⟨_, _, _, _, rfl, rfl, (fun i hi => match i, hi with
      | 0, _ => rfl
      | 1, _ => rfl
      | 2, _ => rfl
      | 3, _ => rfl
      | 4, _ => rfl
      | 5, _ => rfl
      | 6, _ => rfl
      | k + 7, h => absurd h (by omega))⟩)⟩
    | 69, _ => ⟨_, rfl, Or.inr (Or.inr ⟨_, _, _, _, rfl, rfl, (fun i hi => match i, hi with
      | 0, _ => rfl
      | 1, _ => rfl
      | 2, _ => rfl
      | 3, _ => rfl
      | 4, _ => rfl
      | 5, _ => rfl
      | 6, _ => rfl
      | k + 7, h => absurd h (by omega))⟩)⟩
    | 70, _ => ⟨_, rfl, Or.inl rfl⟩
    | 71, _ => ⟨_, rfl, Or.inl rfl⟩
    | 72, _ => ⟨_, rfl, Or.inl rfl⟩
    | 73, _ => ⟨_, rfl, Or.inr (Or.inr ⟨_, _, _, _, rfl, rfl, (fun i hi => match i, hi with
      | 0, _ => rfl
      | 1, _ => rfl
      | 2, _ => rfl
      | 3, _ => rfl
      | 4, _ => rfl
      | 5, _ => rfl
      | 6, _ => rfl
      | 7, _ => rfl
      | k + 8, h => absurd h (by omega))⟩)⟩
    | 74, _ => ⟨_, rfl, Or.inr (Or.inr ⟨_, _, _, _, rfl, rfl, (fun i hi => match i, hi with
      | 0, _ => rfl
      | 1, _ => rfl
      | 2, _ => rfl
      | 3, _ => rfl
      | 4, _ => rfl
      | 5, _ => rfl
      | 6, _ => rfl
      | 7, _ => rfl
      | 8, _ => rfl
      | k + 9, h => absurd h (by omega))⟩)⟩
    | 75, _ => ⟨_, rfl, Or.inr (Or.inr ⟨_, _, _, _, rfl, rfl, (fun i hi => match i, hi with
      | 0, _ => rfl
      | 1, _ => rfl
      | 2, _ => rfl
      | 3, _ => rfl
      | 4, _ => rfl
      | 5, _ => rfl
      | 6, _ => rfl
      | 7, _ => rfl
      | 8, _ => rfl
      | k + 9, h => absurd h (by omega))⟩)⟩
    | 76, _ => ⟨_, rfl, Or.inr (Or.inl ⟨_, _, _, _, rfl, rfl, (fun i hi => match i, hi with
      | 0, _ => rfl
      | 1, _ => rfl
      | 2, _ => rfl
      | 3, _ => rfl
      | 4, _ => rfl
      | 5, _ => rfl
      | 6, _ => rfl
      | 7, _ => rfl
      | 8, _ => rfl
      | k + 9, h => absurd h (by omega))⟩)⟩
    | 77, _ => ⟨_, rfl, Or.inr (Or.inl ⟨_, _, _, _, rfl, rfl, (fun i hi => match i, hi with
      | 0, _ => rfl
      | 1, _ => rfl
      | 2, _ => rfl
      | 3, _ => rfl
      | 4, _ => rfl
      | 5, _ => rfl
      | 6, _ => rfl
      | 7, _ => rfl
      | 8, _ => rfl
      | k + 9, h => absurd h (by omega))⟩)⟩
    | 78, _ => ⟨_, rfl, Or.inl rfl⟩
    | k + 79, h => absurd h (by omega)
def piM : List Nat := [2, 3, 4, 5, 6, 7, 8, 9, 10, 12, 13, 14, 15, 16, 17, 18, 20, 21, 22, 23, 24, 25, 26, 27, 30, 31, 32, 33, 34, 35, 36, 37, 38, 39, 40, 41, 42, 43, 44, 45, 46, 47, 48, 49, 50, 51, 52, 53, 54, 55, 56, 57, 58, 59, 60, 61, 62, 63, 64, 65, 66, 67, 68, 69, 70, 71, 72, 0, 1, 11, 19, 29, 28]
theorem piM_inj : ∀ i, i < 73 → ∀ j, j < 73 → piM.getD i 0 = piM.getD j 0 → i = j := by decide +kernel
set_option maxRecDepth 100000 in
set_option maxHeartbeats 4000000 in
theorem toM {κ : Nat → ClassId} {w1 : va_W} {q : Nat} (h : ∃ a1 : Nat, ∃ r1 : Nat → Nat, ∃ a2 : Nat, ∃ a3 : Nat, ∃ r3 : Nat → Nat, ∃ a4 : Nat, ∃ r4 : Nat → Nat, ∃ a5 : Nat, ∃ a6 : Nat, ∃ a7 : Nat, ∃ r7 : Nat → Nat, ∃ a8 : Nat, ∃ a9 : Nat, ∃ a10 : Nat, w1 = (q, .inr (8, [.int 0, .ref a1, .ref a2, .ref a3, .ref a4, .int 0, .int 0, .ref a5, .ref a6, .int 0, .ref a7, .int 0, .int 0, .int 0, .int 0, .int 0, .ref a8, .ref a9, .ref a10])) :: (((((((((gW (κ 5) (κ 4) a1 r1 8 102 ++ [cIA (κ 4) a2 102]) ++ gW (κ 5) (κ 4) a3 r3 7 102) ++ gW (κ 5) (κ 4) a4 r4 7 102) ++ [cIA (κ 4) a5 102]) ++ [cIA (κ 3) a6 200]) ++ gW (κ 5) (κ 4) a7 r7 40 102) ++ [cIA (κ 4) a8 102]) ++ [cIA (κ 4) a9 102]) ++ [cIA (κ 4) a10 102])) : ∃ bd : Nat → Nat, ∀ k, k < 73 → ∃ e, w1[piM.getD k 0]? = some (bd k, e) ∧ evq e (mE bd κ m0 k) := by
  obtain ⟨a1, r1, a2, a3, r3, a4, r4, a5, a6, a7, r7, a8, a9, a10, rfl⟩ := h
  refine ⟨fun k => ([r1 0, r1 1, r1 2, r1 3, r1 4, r1 5, r1 6, r1 7, a2, r3 0, r3 1, r3 2, r3 3, r3 4, r3 5, r3 6, r4 0, r4 1, r4 2, r4 3, r4 4, r4 5, r4 6, a5, r7 0, r7 1, r7 2, r7 3, r7 4, r7 5, r7 6, r7 7, r7 8, r7 9, r7 10, r7 11, r7 12, r7 13, r7 14, r7 15, r7 16, r7 17, r7 18, r7 19, r7 20, r7 21, r7 22, r7 23, r7 24, r7 25, r7 26, r7 27, r7 28, r7 29, r7 30, r7 31, r7 32, r7 33, r7 34, r7 35, r7 36, r7 37, r7 38, r7 39, a8, a9, a10, q, a1, a3, a4, a7, a6] : List Nat).getD k 0, ?_⟩
  intro k hk
  exact match k, hk with
    | 0, _ => ⟨_, rfl, Or.inl rfl⟩
    | 1, _ => ⟨_, rfl, Or.inl rfl⟩
    | 2, _ => ⟨_, rfl, Or.inl rfl⟩
    | 3, _ => ⟨_, rfl, Or.inl rfl⟩
    | 4, _ => ⟨_, rfl, Or.inl rfl⟩
    | 5, _ => ⟨_, rfl, Or.inl rfl⟩
    | 6, _ => ⟨_, rfl, Or.inl rfl⟩
    | 7, _ => ⟨_, rfl, Or.inl rfl⟩
    | 8, _ => ⟨_, rfl, Or.inl rfl⟩
    | 9, _ => ⟨_, rfl, Or.inl rfl⟩
    | 10, _ => ⟨_, rfl, Or.inl rfl⟩
    | 11, _ => ⟨_, rfl, Or.inl rfl⟩
    | 12, _ => ⟨_, rfl, Or.inl rfl⟩
    | 13, _ => ⟨_, rfl, Or.inl rfl⟩
    | 14, _ => ⟨_, rfl, Or.inl rfl⟩
    | 15, _ => ⟨_, rfl, Or.inl rfl⟩
    | 16, _ => ⟨_, rfl, Or.inl rfl⟩
    | 17, _ => ⟨_, rfl, Or.inl rfl⟩
    | 18, _ => ⟨_, rfl, Or.inl rfl⟩
    | 19, _ => ⟨_, rfl, Or.inl rfl⟩
    | 20, _ => ⟨_, rfl, Or.inl rfl⟩
    | 21, _ => ⟨_, rfl, Or.inl rfl⟩
    | 22, _ => ⟨_, rfl, Or.inl rfl⟩
    | 23, _ => ⟨_, rfl, Or.inl rfl⟩
    | 24, _ => ⟨_, rfl, Or.inl rfl⟩
    | 25, _ => ⟨_, rfl, Or.inl rfl⟩
    | 26, _ => ⟨_, rfl, Or.inl rfl⟩
    | 27, _ => ⟨_, rfl, Or.inl rfl⟩
    | 28, _ => ⟨_, rfl, Or.inl rfl⟩
    | 29, _ => ⟨_, rfl, Or.inl rfl⟩
    | 30, _ => ⟨_, rfl, Or.inl rfl⟩
    | 31, _ => ⟨_, rfl, Or.inl rfl⟩
    | 32, _ => ⟨_, rfl, Or.inl rfl⟩
    | 33, _ => ⟨_, rfl, Or.inl rfl⟩
    | 34, _ => ⟨_, rfl, Or.inl rfl⟩
    | 35, _ => ⟨_, rfl, Or.inl rfl⟩
    | 36, _ => ⟨_, rfl, Or.inl rfl⟩
    | 37, _ => ⟨_, rfl, Or.inl rfl⟩
    | 38, _ => ⟨_, rfl, Or.inl rfl⟩
    | 39, _ => ⟨_, rfl, Or.inl rfl⟩
    | 40, _ => ⟨_, rfl, Or.inl rfl⟩
    | 41, _ => ⟨_, rfl, Or.inl rfl⟩
    | 42, _ => ⟨_, rfl, Or.inl rfl⟩
    | 43, _ => ⟨_, rfl, Or.inl rfl⟩
    | 44, _ => ⟨_, rfl, Or.inl rfl⟩
    | 45, _ => ⟨_, rfl, Or.inl rfl⟩
    | 46, _ => ⟨_, rfl, Or.inl rfl⟩
    | 47, _ => ⟨_, rfl, Or.inl rfl⟩
    | 48, _ => ⟨_, rfl, Or.inl rfl⟩
    | 49, _ => ⟨_, rfl, Or.inl rfl⟩
    | 50, _ => ⟨_, rfl, Or.inl rfl⟩
    | 51, _ => ⟨_, rfl, Or.inl rfl⟩
    | 52, _ => ⟨_, rfl, Or.inl rfl⟩
    | 53, _ => ⟨_, rfl, Or.inl rfl⟩
    | 54, _ => ⟨_, rfl, Or.inl rfl⟩
    | 55, _ => ⟨_, rfl, Or.inl rfl⟩
    | 56, _ => ⟨_, rfl, Or.inl rfl⟩
    | 57, _ => ⟨_, rfl, Or.inl rfl⟩
    | 58, _ => ⟨_, rfl, Or.inl rfl⟩
    | 59, _ => ⟨_, rfl, Or.inl rfl⟩
    | 60, _ => ⟨_, rfl, Or.inl rfl⟩
    | 61, _ => ⟨_, rfl, Or.inl rfl⟩
    | 62, _ => ⟨_, rfl, Or.inl rfl⟩
    | 63, _ => ⟨_, rfl, Or.inl rfl⟩
    | 64, _ => ⟨_, rfl, Or.inl rfl⟩
    | 65, _ => ⟨_, rfl, Or.inl rfl⟩
    | 66, _ => ⟨_, rfl, Or.inl rfl⟩
    | 67, _ => ⟨_, rfl, Or.inl rfl⟩
    | 68, _ => ⟨_, rfl, Or.inr (Or.inr ⟨_, _, _, _, rfl, rfl, (fun i hi => match i, hi with
      | 0, _ => rfl
      | 1, _ => rfl
      | 2, _ => rfl
      | 3, _ => rfl
      | 4, _ => rfl
      | 5, _ => rfl
      | 6, _ => rfl
      | 7, _ => rfl
      | k + 8, h => absurd h (by omega))⟩)⟩
    | 69, _ => ⟨_, rfl, Or.inr (Or.inr ⟨_, _, _, _, rfl, rfl, (fun i hi => match i, hi with
      | 0, _ => rfl
      | 1, _ => rfl
      | 2, _ => rfl
      | 3, _ => rfl
      | 4, _ => rfl
      | 5, _ => rfl
      | 6, _ => rfl
      | k + 7, h => absurd h (by omega))⟩)⟩
    | 70, _ => ⟨_, rfl, Or.inr (Or.inr ⟨_, _, _, _, rfl, rfl, (fun i hi => match i, hi with
      | 0, _ => rfl
      | 1, _ => rfl
      | 2, _ => rfl
      | 3, _ => rfl
      | 4, _ => rfl
      | 5, _ => rfl
      | 6, _ => rfl
      | k + 7, h => absurd h (by omega))⟩)⟩
    | 71, _ => ⟨_, rfl, Or.inr (Or.inr ⟨_, _, _, _, rfl, rfl, (fun i hi => match i, hi with
      | 0, _ => rfl
      | 1, _ => rfl
      | 2, _ => rfl
      | 3, _ => rfl
      | 4, _ => rfl
      | 5, _ => rfl
      | 6, _ => rfl
      | 7, _ => rfl
      | 8, _ => rfl
      | 9, _ => rfl
      | 10, _ => rfl
      | 11, _ => rfl
      | 12, _ => rfl
      | 13, _ => rfl
      | 14, _ => rfl
      | 15, _ => rfl
      | 16, _ => rfl
      | 17, _ => rfl
      | 18, _ => rfl
      | 19, _ => rfl
      | 20, _ => rfl
      | 21, _ => rfl
      | 22, _ => rfl
      | 23, _ => rfl
      | 24, _ => rfl
      | 25, _ => rfl
      | 26, _ => rfl
      | 27, _ => rfl
      | 28, _ => rfl
      | 29, _ => rfl
      | 30, _ => rfl
      | 31, _ => rfl
      | 32, _ => rfl
      | 33, _ => rfl
      | 34, _ => rfl
      | 35, _ => rfl
      | 36, _ => rfl
      | 37, _ => rfl
      | 38, _ => rfl
      | 39, _ => rfl
      | k + 40, h => absurd h (by omega))⟩)⟩
    | 72, _ => ⟨_, rfl, Or.inl rfl⟩
    | k + 73, h => absurd h (by omega)
