/-! ===== the law's entry: the making of the world ===== -/
theorem P_swap {D : va_G} {cl : List vw_C} {H : Heap} {X Y : va_W} (h : va_P D cl (X ++ Y) H) : va_P D cl (Y ++ X) H := by
  intro k q hk
  have h1 : q ∈ Y ++ X := List.mem_of_getElem? hk
  have h2 : q ∈ X ++ Y := List.mem_append.mpr (List.mem_append.mp h1).symm
  obtain ⟨j, hj⟩ := List.getElem?_of_mem h2
  exact h j q hj
theorem D_swap {A : Nat → Prop} {X Y : va_W} (h : va_D A (X ++ Y)) : va_D A (Y ++ X) := by
  have key : ∀ (k : Nat) (q : Nat × va_E), (Y ++ X)[k]? = some q → (X ++ Y)[if k < Y.length then X.length + k else k - Y.length]? = some q ∧ k < Y.length + X.length := by
    intro k q hk
    have h0 := (List.getElem?_eq_some_iff.mp hk).1
    rw [List.length_append] at h0
    by_cases c : k < Y.length
    · rw [if_pos c]
      rw [List.getElem?_append_left c] at hk
      refine ⟨?_, h0⟩
      rw [List.getElem?_append_right (by omega), Nat.add_sub_cancel_left]; exact hk
    · rw [if_neg c]
      rw [List.getElem?_append_right (by omega)] at hk
      refine ⟨?_, h0⟩
      rw [List.getElem?_append_left (by omega)]; exact hk
  refine ⟨fun i j p q hi hj hpq => ?_, fun k q hk => h.2 _ q (key k q hk).1⟩
  obtain ⟨a1, b1⟩ := key i p hi
  obtain ⟨a2, b2⟩ := key j q hj
  have h3 := h.1 _ _ p q a1 a2 hpq
  by_cases c1 : i < Y.length
  · rw [if_pos c1] at h3
    by_cases c2 : j < Y.length
    · rw [if_pos c2] at h3; omega
    · rw [if_neg c2] at h3; omega
  · rw [if_neg c1] at h3
    by_cases c2 : j < Y.length
    · rw [if_pos c2] at h3; omega
    · rw [if_neg c2] at h3; omega
section VENT
variable {D : va_G} {κ : Nat → ClassId} {w1 w2 : va_W} {qo : Nat} {ad bd : Nat → Nat}
theorem toL_P {H : Heap} (h1 : ∀ k, k < 79 → ∃ e, w1[piC.getD k 0]? = some (ad k, e) ∧ evq e (cE ad κ s0 k)) (h2 : ∀ k, k < 73 → ∃ e, w2[piM.getD k 0]? = some (bd k, e) ∧ evq e (mE bd κ m0 k)) (hP : va_P D vwCl ((w1 ++ w2) ++ [oC κ qo 0]) H) : va_P D vwCl (lW ad bd κ qo (s0, m0, 0)) H := by
  have g1 := P_swap hP
  rw [← List.append_assoc] at g1
  have g2 := P_perm (n := 73) (a := bd) (f := mE bd κ m0) g1 (fun k => piM.getD k 0) h2
  have g3 := P_swap g2
  rw [← List.append_assoc] at g3
  have g4 := P_perm (n := 79) (a := ad) (f := cE ad κ s0) g3 (fun k => piC.getD k 0) h1
  have g5 := P_swap g4
  rw [← List.append_assoc] at g5
  exact g5
theorem toL_D {A : Nat → Prop} (h1 : ∀ k, k < 79 → ∃ e, w1[piC.getD k 0]? = some (ad k, e) ∧ evq e (cE ad κ s0 k)) (h2 : ∀ k, k < 73 → ∃ e, w2[piM.getD k 0]? = some (bd k, e) ∧ evq e (mE bd κ m0 k)) (hD : va_D A ((w1 ++ w2) ++ [oC κ qo 0])) : va_D A (lW ad bd κ qo (s0, m0, 0)) := by
  have g1 := D_swap hD
  rw [← List.append_assoc] at g1
  have g2 := D_perm (n := 73) (a := bd) (f := mE bd κ m0) g1 (fun k => piM.getD k 0) (fun i j hi hj h => piM_inj i hi j hj h) h2
  have g3 := D_swap g2
  rw [← List.append_assoc] at g3
  have g4 := D_perm (n := 79) (a := ad) (f := cE ad κ s0) g3 (fun k => piC.getD k 0) (fun i j hi hj h => piC_inj i hi j hj h) h1
  have g5 := D_swap g4
  rw [← List.append_assoc] at g5
  exact g5
end VENT
section VENT2
variable {σ : Type} {w : σ → va_W} {D : va_G} {κ : Nat → ClassId} {E : evT} {l : Launch} {Γ : cxT} {cc : ByteArray} {own : String} {Ts : List Cond} {nL : Nat} {R : Room} {st : σ} {cells slots pc : Nat} {lv : List (Nat × Value)} {rest : List Value}
theorem z_newaL (G : Cx w D (tyA κ) E l Γ cc own Ts nL R) {N' : Nat} {n : Int32} (harr : Cond.arrayClass .long ∈ Ts) (hn : ¬ n < 0) (hN : n.toNatClampNeg = N') (hb : N' * componentBytes .long ≤ 536870912) (hc : cells + 1 ≤ R.cells) (hs : slots + N' ≤ R.slots) (d : decode cc pc = .ok (.newarray .long, 2))
    (k : ∀ q : Nat, Cx (kw (w st ++ [(q, .inl (κ 6, N', .inr (.inl (fun _ => 0))))])) D (tyA κ) E l Γ cc own Ts nL R → V (kw (w st ++ [(q, .inl (κ 6, N', .inr (.inl (fun _ => 0))))])) D Γ () (cells + 1) (slots + N') (pc + 2) lv (.ref q :: rest)) : V w D Γ st cells slots pc lv (.int n :: rest) := by
  intro H locs ls hl hP hS
  refine va_newa (atype := .long) (ty := .long) (a0 := (N', .inr (.inl (fun _ => 0)))) G.hx G.hb (G.ts _ harr) rfl G.K hP (G.hD st) hS G.A (fun cA => rfl) hn hN hb (by rw [G.hR]; exact hc) (by rw [G.hR]; exact hs) d (fun q cA' H1 hK1 hP1 hD1 hS1 => ?_)
  have e : cA' = κ 6 := by
    have h1 := va_nm_long (hK1.2 (tyA κ).length (cA', .long) (by rw [List.getElem?_append_right (Nat.le_refl _), Nat.sub_self]; rfl)).2
    have h2 := va_nm_long (G.K.2 6 _ rfl).2
    exact Option.some.inj (h1.symm.trans h2)
  subst e
  exact k q (G.world (fun _ => hD1)) H1 locs ls hl hP1 hS1
theorem z_law {w1 w2 : va_W} {qo : Nat} {ad bd : Nat → Nat} (G : Cx (kw ((w1 ++ w2) ++ [oC κ qo 0])) D (tyA κ) E l Γ cc own Ts nL R) (h1 : ∀ k, k < 79 → ∃ e, w1[piC.getD k 0]? = some (ad k, e) ∧ evq e (cE ad κ s0 k)) (h2 : ∀ k, k < 73 → ∃ e, w2[piM.getD k 0]? = some (bd k, e) ∧ evq e (mE bd κ m0 k))
    (k : Cx (lW ad bd κ qo) D (tyA κ) E l Γ cc own Ts nL R → V (lW ad bd κ qo) D Γ (s0, m0, 0) cells slots pc lv rest) : V (kw ((w1 ++ w2) ++ [oC κ qo 0])) D Γ () cells slots pc lv rest :=
  fun H locs ls hl hP hS => k (G.world (fun st2 => WA_D (lW_WA ad bd κ qo) (toL_D h1 h2 (G.hD ())) st2)) H locs ls hl (toL_P h1 h2 hP) hS
end VENT2
theorem mL_k8 : Cond.classLink RL 8 RX7 ∈ wsL_law := by decide +kernel
theorem mL_in7 : Cond.instantiable RX7 8 ∈ wsL_law := by decide +kernel
theorem mL_ii7 : Cond.initialized RX7 ∈ wsL_law := by decide +kernel
theorem mL_k135 : Cond.classLink RL 135 RX8 ∈ wsL_law := by decide +kernel
theorem mL_in8 : Cond.instantiable RX8 19 ∈ wsL_law := by decide +kernel
theorem mL_ii8 : Cond.initialized RX8 ∈ wsL_law := by decide +kernel
theorem mL_along : Cond.arrayClass .long ∈ wsL_law := by decide +kernel
theorem mL_l134 : Cond.methodLink RL 134 yX7_init ∈ wsL_law := by decide +kernel
theorem mL_im7 : Cond.instanceMethod yX7_init ∈ wsL_law := by decide +kernel
theorem mL_l137 : Cond.methodLink RL 137 yX8_init ∈ wsL_law := by decide +kernel
theorem mL_im8 : Cond.instanceMethod yX8_init ∈ wsL_law := by decide +kernel
theorem hdX7_init : yX7_init.cls ≠ "java/lang/invoke/MethodHandle" ∧ yX7_init.cls ≠ "java/lang/invoke/VarHandle" ∧ (parseMethodDescriptor yX7_init.desc).map (fun d => d.parameters.length) = some 0 := by decide +kernel
theorem hdX8_init : yX8_init.cls ≠ "java/lang/invoke/MethodHandle" ∧ yX8_init.cls ≠ "java/lang/invoke/VarHandle" ∧ (parseMethodDescriptor yX8_init.desc).map (fun d => d.parameters.length) = some 0 := by decide +kernel

set_option maxHeartbeats 4000000 in
set_option maxRecDepth 100000 in
theorem wL_entry {E : evT} {l : Launch} {D : va_G} {κ : Nat → ClassId} (hE : EvOk E) (hA : AOk E) {Γ : cxT} (G : Cx eW D (tyA κ) E l Γ code RL wsL_law 9 room_1) {b : Nat}
    (k : ∀ (ad bd : Nat → Nat) (qo : Nat), Cx (lW ad bd κ qo) D (tyA κ) E l Γ code RL wsL_law 9 room_1 → V (lW ad bd κ qo) D Γ (s0, m0, 0) 200 8000 23 [(0, .ref b), (1, .ref (ad 55)), (2, .ref (bd 67)), (3, .ref qo), (4, .int 0)] []) : V eW D Γ () 0 0 0 [(0, .ref b)] [] := by
  refine z_new G (C := RX7) (T := TX7) (N := 8) (ci := 7) (fs := [.null, .null, .null, .null, .null, .null, .null, .null]) inlX7 tyX7 tyX7_ok mL_k8 mL_in7 mL_ii7 rfl (by decide) (Nat.le_of_ble_eq_true rfl) (Nat.le_of_ble_eq_true rfl) dL_law_0 (fun q1 G => ?_)
  refine z_eq (w2 := [(q1, .inr (7, [.null, .null, .null, .null, .null, .null, .null, .null]))]) G rfl (fun G => ?_)
  refine r_dup G rfl dL_law_3 ?_
  refine z_callI G (P := []) (Q := []) (w0 := [(q1, .inr (7, [.null, .null, .null, .null, .null, .null, .null, .null]))]) rfl [] (qX7_init hE hA) gL_law_X7_init rfl mL_ii7 mL_l134 mL_im7 rfl hdX7_init ⟨(Nat.le_of_ble_eq_true rfl), (Nat.le_of_ble_eq_true rfl)⟩ (Nat.le_of_ble_eq_true rfl) rfl ⟨(Nat.le_of_ble_eq_true rfl), (Nat.le_of_ble_eq_true rfl)⟩ rfl rfl dL_law_4 (fun w1 hw1 G => ?_)
  have hq1 : ∃ e, w1[0]? = some (q1, e) := by
    obtain ⟨a1, a2, a3, a4, a5, a6, a7, a8, a9, a10, a11, a12, a13, a14, a15, a16, a17, a18, a19, a20, a21, a22, a23, a24, a25, a26, a27, a28, a29, a30, a31, a32, a33, a34, a35, a36, a37, a38, a39, a40, a41, a42, a43, a44, a45, a46, a47, a48, a49, a50, a51, a52, a53, a54, a55, a56, a57, a58, a59, a60, a61, a62, a63, a64, a65, a66, a67, a68, a69, a70, a71, a72, a73, a74, a75, a76, a77, a78, rfl⟩ := hw1
    exact ⟨_, rfl⟩
  obtain ⟨ad, had⟩ := toC (κ := κ) (w1 := w1) ⟨q1, hw1⟩
  have ea : q1 = ad 55 := by
    obtain ⟨e1, h1⟩ := hq1
    obtain ⟨e2, h2, -⟩ := had 55 (by decide)
    have h2 : w1[0]? = some (ad 55, e2) := h2
    exact congrArg Prod.fst (Option.some.inj (h1.symm.trans h2))
  refine z_eq (w2 := w1) G (by simp) (fun G => ?_)
  refine r_astore_n G (lv' := [(0, .ref b), (1, .ref q1)]) [1, 0] rfl rfl (by decide) dL_law_7 ?_
  refine z_new G (C := RX8) (T := TX8) (N := 19) (ci := 8) (fs := [.int 0, .null, .null, .null, .null, .int 0, .int 0, .null, .null, .int 0, .null, .int 0, .int 0, .int 0, .int 0, .int 0, .null, .null, .null]) inlX8 tyX8 tyX8_ok mL_k135 mL_in8 mL_ii8 rfl (by decide) (Nat.le_of_ble_eq_true rfl) (Nat.le_of_ble_eq_true rfl) dL_law_8 (fun q2 G => ?_)
  refine r_dup G rfl dL_law_11 ?_
  refine z_callI G (P := w1) (Q := []) (w0 := [(q2, .inr (8, [.int 0, .null, .null, .null, .null, .int 0, .int 0, .null, .null, .int 0, .null, .int 0, .int 0, .int 0, .int 0, .int 0, .null, .null, .null]))]) (by simp) [] (qX8_init hE hA) gL_law_X8_init rfl mL_ii8 mL_l137 mL_im8 rfl hdX8_init ⟨(Nat.le_of_ble_eq_true rfl), (Nat.le_of_ble_eq_true rfl)⟩ (Nat.le_of_ble_eq_true rfl) rfl ⟨(Nat.le_of_ble_eq_true rfl), (Nat.le_of_ble_eq_true rfl)⟩ rfl rfl dL_law_12 (fun w2 hw2 G => ?_)
  have hq2 : ∃ e, w2[0]? = some (q2, e) := by
    obtain ⟨a1, r1, a2, a3, r3, a4, r4, a5, a6, a7, r7, a8, a9, a10, rfl⟩ := hw2
    exact ⟨_, rfl⟩
  obtain ⟨bd, hbd⟩ := toM (κ := κ) (w1 := w2) (q := q2) hw2
  have eb : q2 = bd 67 := by
    obtain ⟨e1, h1⟩ := hq2
    obtain ⟨e2, h2, -⟩ := hbd 67 (by decide)
    have h2 : w2[0]? = some (bd 67, e2) := h2
    exact congrArg Prod.fst (Option.some.inj (h1.symm.trans h2))
  refine z_eq (w2 := w1 ++ w2) G (by simp) (fun G => ?_)
  refine r_astore_n G (lv' := [(0, .ref b), (1, .ref q1), (2, .ref q2)]) [1, 2, 0] rfl rfl (by decide) dL_law_15 ?_
  refine r_iconst G (v := 1) (by decide) dL_law_16 ?_
  refine z_newaL G (N' := 1) mL_along (by decide) rfl (Nat.le_of_ble_eq_true rfl) (Nat.le_of_ble_eq_true rfl) (Nat.le_of_ble_eq_true rfl) dL_law_17 (fun qo G => ?_)
  refine z_eq (w2 := (w1 ++ w2) ++ [oC κ qo 0]) G (by
    have h : (fun k : Nat => if k = 0 then (0 : Int64) else 0) = fun _ => 0 := funext fun k => by by_cases c : k = 0 <;> simp [c]
    show _ = (w1 ++ w2) ++ [(qo, .inl (κ 6, 1, .inr (.inl (fun k => if k = 0 then (0 : Int64) else 0))))]
    rw [h]) (fun G => ?_)
  refine r_astore_n G (lv' := [(0, .ref b), (1, .ref q1), (2, .ref q2), (3, .ref qo)]) [1, 2, 3, 0] rfl rfl (by decide) dL_law_19 ?_
  refine r_iconst G (v := 0) (by decide) dL_law_20 ?_
  refine r_istore G (lv' := [(0, .ref b), (1, .ref q1), (2, .ref q2), (3, .ref qo), (4, .int 0)]) [1, 2, 3, 4, 0] rfl (by decide) dL_law_21 ?_
  rw [ea, eb]
  refine z_law G had hbd (fun G => ?_)
  exact V.widen (Nat.le_of_ble_eq_true rfl) (Nat.le_of_ble_eq_true rfl) (k ad bd qo G)
