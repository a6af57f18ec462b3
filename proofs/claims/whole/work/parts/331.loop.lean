/-! ===== the law's loop ===== -/
set_option maxHeartbeats 4000000 in
set_option maxRecDepth 100000 in
theorem wL_body {E : evT} {l : Launch} {D : va_G} {ad bd : Nat → Nat} {qo : Nat} {κ : Nat → ClassId} {kK kV : Nat → Nat} (hE : EvOk E) (hT : TOk E) (hfl : l.stackTraces = false) (hC : COk E) (hSt : SOk E kK kV) {Γ : cxT} (G : Cx (lW ad bd κ qo) D (tyA κ) E l Γ code RL wsL_law 9 room_1) {b L : Nat} {ys : Nat → Int32} (hX : va_X b L ys (xs Γ) (xH Γ)) (hbl : b < (xH Γ).size) (hbA : ¬ xA Γ b) {C S : Nat} (hcC : C + 8 ≤ room_1.cells) (hcS : S + 40 ≤ room_1.slots) (i : Int32) (s : lS) {o : lS} (hk : V (lW ad bd κ qo) D Γ o (C + 8) (S + 40) 2906 [(0, .ref b), (1, .ref (ad 55)), (2, .ref (bd 67)), (3, .ref qo), (4, .int i)] []) (h : fL_body L ys i s = some o) : V (lW ad bd κ qo) D Γ s C S 32 [(0, .ref b), (1, .ref (ad 55)), (2, .ref (bd 67)), (3, .ref qo), (4, .int i)] [] := by
  rw [fL_body] at h
  refine r_aload_n G 0 rfl rfl dL_law_32 ?_
  refine r_iload G 4 rfl dL_law_33 ?_
  obtain ⟨g1, h⟩ := og h
  refine r_sld G hX hbl hbA (vin_in g1) dL_law_35 ?_
  refine r_bipush G (v := 63) (by decide) dL_law_36 ?_
  refine r_iand G dL_law_38 ?_
  generalize hz : (ys i.toNatClampNeg &&& 63) = z at h ⊢
  by_cases c0 : z = 0
  · rw [if_pos c0] at h
    refine r_tableIn G (tgt := 244) dL_law_39 (by rw [c0]; decide) (by rw [c0]; decide) (by rw [c0]; rfl) (by decide) ?_
    exact wL_c0 hE hT hfl hC hSt G hX hbl hbA hcC hcS i s hk h
  rw [if_neg c0] at h
  by_cases c1 : z = 1
  · rw [if_pos c1] at h
    refine r_tableIn G (tgt := 319) dL_law_39 (by rw [c1]; decide) (by rw [c1]; decide) (by rw [c1]; rfl) (by decide) ?_
    exact wL_c1 hE hT hfl hC hSt G hX hbl hbA hcC hcS i s hk h
  rw [if_neg c1] at h
  by_cases c2 : z = 2
  · rw [if_pos c2] at h
    refine r_tableIn G (tgt := 394) dL_law_39 (by rw [c2]; decide) (by rw [c2]; decide) (by rw [c2]; rfl) (by decide) ?_
    exact wL_c2 hE hT hfl hC hSt G hX hbl hbA hcC hcS i s hk h
  rw [if_neg c2] at h
  by_cases c3 : z = 3
  · rw [if_pos c3] at h
    refine r_tableIn G (tgt := 469) dL_law_39 (by rw [c3]; decide) (by rw [c3]; decide) (by rw [c3]; rfl) (by decide) ?_
    exact wL_c3 hE hT hfl hC hSt G hX hbl hbA hcC hcS i s hk h
  rw [if_neg c3] at h
  by_cases c4 : z = 4
  · rw [if_pos c4] at h
    refine r_tableIn G (tgt := 525) dL_law_39 (by rw [c4]; decide) (by rw [c4]; decide) (by rw [c4]; rfl) (by decide) ?_
    exact wL_c4 hE hT hfl hC hSt G hX hbl hbA hcC hcS i s hk h
  rw [if_neg c4] at h
  by_cases c5 : z = 5
  · rw [if_pos c5] at h
    refine r_tableIn G (tgt := 581) dL_law_39 (by rw [c5]; decide) (by rw [c5]; decide) (by rw [c5]; rfl) (by decide) ?_
    exact wL_c5 hE hT hfl hC hSt G hX hbl hbA hcC hcS i s hk h
  rw [if_neg c5] at h
  by_cases c6 : z = 6
  · rw [if_pos c6] at h
    refine r_tableIn G (tgt := 637) dL_law_39 (by rw [c6]; decide) (by rw [c6]; decide) (by rw [c6]; rfl) (by decide) ?_
    exact wL_c6 hE hT hfl hC hSt G hX hbl hbA hcC hcS i s hk h
  rw [if_neg c6] at h
  by_cases c7 : z = 7
  · rw [if_pos c7] at h
    refine r_tableIn G (tgt := 729) dL_law_39 (by rw [c7]; decide) (by rw [c7]; decide) (by rw [c7]; rfl) (by decide) ?_
    exact wL_c7 hE hT hfl hC hSt G hX hbl hbA hcC hcS i s hk h
  rw [if_neg c7] at h
  by_cases c8 : z = 8
  · rw [if_pos c8] at h
    refine r_tableIn G (tgt := 797) dL_law_39 (by rw [c8]; decide) (by rw [c8]; decide) (by rw [c8]; rfl) (by decide) ?_
    exact wL_c8 hE hT hfl hC hSt G hX hbl hbA hcC hcS i s hk h
  rw [if_neg c8] at h
  by_cases c9 : z = 9
  · rw [if_pos c9] at h
    refine r_tableIn G (tgt := 853) dL_law_39 (by rw [c9]; decide) (by rw [c9]; decide) (by rw [c9]; rfl) (by decide) ?_
    exact wL_c9 hE hT hfl hC hSt G hX hbl hbA hcC hcS i s hk h
  rw [if_neg c9] at h
  by_cases c10 : z = 10
  · rw [if_pos c10] at h
    refine r_tableIn G (tgt := 909) dL_law_39 (by rw [c10]; decide) (by rw [c10]; decide) (by rw [c10]; rfl) (by decide) ?_
    exact wL_c10 hE hT hfl hC hSt G hX hbl hbA hcC hcS i s hk h
  rw [if_neg c10] at h
  by_cases c11 : z = 11
  · rw [if_pos c11] at h
    refine r_tableIn G (tgt := 984) dL_law_39 (by rw [c11]; decide) (by rw [c11]; decide) (by rw [c11]; rfl) (by decide) ?_
    exact wL_c11 hE hT hfl hC hSt G hX hbl hbA hcC hcS i s hk h
  rw [if_neg c11] at h
  by_cases c12 : z = 12
  · rw [if_pos c12] at h
    refine r_tableIn G (tgt := 1059) dL_law_39 (by rw [c12]; decide) (by rw [c12]; decide) (by rw [c12]; rfl) (by decide) ?_
    exact wL_c12 hE hT hfl hC hSt G hX hbl hbA hcC hcS i s hk h
  rw [if_neg c12] at h
  by_cases c13 : z = 13
  · rw [if_pos c13] at h
    refine r_tableIn G (tgt := 1134) dL_law_39 (by rw [c13]; decide) (by rw [c13]; decide) (by rw [c13]; rfl) (by decide) ?_
    exact wL_c13 hE hT hfl hC hSt G hX hbl hbA hcC hcS i s hk h
  rw [if_neg c13] at h
  by_cases c14 : z = 14
  · rw [if_pos c14] at h
    refine r_tableIn G (tgt := 1202) dL_law_39 (by rw [c14]; decide) (by rw [c14]; decide) (by rw [c14]; rfl) (by decide) ?_
    exact wL_c14 hE hT hfl hC hSt G hX hbl hbA hcC hcS i s hk h
  rw [if_neg c14] at h
  by_cases c15 : z = 15
  · rw [if_pos c15] at h
    refine r_tableIn G (tgt := 1282) dL_law_39 (by rw [c15]; decide) (by rw [c15]; decide) (by rw [c15]; rfl) (by decide) ?_
    exact wL_c15 hE hT hfl hC hSt G hX hbl hbA hcC hcS i s hk h
  rw [if_neg c15] at h
  by_cases c16 : z = 16
  · rw [if_pos c16] at h
    refine r_tableIn G (tgt := 1357) dL_law_39 (by rw [c16]; decide) (by rw [c16]; decide) (by rw [c16]; rfl) (by decide) ?_
    exact wL_c16 hE hT hfl hC hSt G hX hbl hbA hcC hcS i s hk h
  rw [if_neg c16] at h
  by_cases c17 : z = 17
  · rw [if_pos c17] at h
    refine r_tableIn G (tgt := 1432) dL_law_39 (by rw [c17]; decide) (by rw [c17]; decide) (by rw [c17]; rfl) (by decide) ?_
    exact wL_c17 hE hT hfl hC hSt G hX hbl hbA hcC hcS i s hk h
  rw [if_neg c17] at h
  by_cases c18 : z = 18
  · rw [if_pos c18] at h
    refine r_tableIn G (tgt := 1507) dL_law_39 (by rw [c18]; decide) (by rw [c18]; decide) (by rw [c18]; rfl) (by decide) ?_
    exact wL_c18 hE hT hfl hC hSt G hX hbl hbA hcC hcS i s hk h
  rw [if_neg c18] at h
  by_cases c19 : z = 19
  · rw [if_pos c19] at h
    refine r_tableIn G (tgt := 1563) dL_law_39 (by rw [c19]; decide) (by rw [c19]; decide) (by rw [c19]; rfl) (by decide) ?_
    exact wL_c19 hE hT hfl hC hSt G hX hbl hbA hcC hcS i s hk h
  rw [if_neg c19] at h
  by_cases c20 : z = 20
  · rw [if_pos c20] at h
    refine r_tableIn G (tgt := 1631) dL_law_39 (by rw [c20]; decide) (by rw [c20]; decide) (by rw [c20]; rfl) (by decide) ?_
    exact wL_c20 hE hT hfl hC hSt G hX hbl hbA hcC hcS i s hk h
  rw [if_neg c20] at h
  by_cases c21 : z = 21
  · rw [if_pos c21] at h
    refine r_tableIn G (tgt := 1694) dL_law_39 (by rw [c21]; decide) (by rw [c21]; decide) (by rw [c21]; rfl) (by decide) ?_
    exact wL_c21 hE hT hfl hC hSt G hX hbl hbA hcC hcS i s hk h
  rw [if_neg c21] at h
  by_cases c22 : z = 22
  · rw [if_pos c22] at h
    refine r_tableIn G (tgt := 1757) dL_law_39 (by rw [c22]; decide) (by rw [c22]; decide) (by rw [c22]; rfl) (by decide) ?_
    exact wL_c22 hE hT hfl hC hSt G hX hbl hbA hcC hcS i s hk h
  rw [if_neg c22] at h
  by_cases c23 : z = 23
  · rw [if_pos c23] at h
    refine r_tableIn G (tgt := 1820) dL_law_39 (by rw [c23]; decide) (by rw [c23]; decide) (by rw [c23]; rfl) (by decide) ?_
    exact wL_c23 hE hT hfl hC hSt G hX hbl hbA hcC hcS i s hk h
  rw [if_neg c23] at h
  by_cases c24 : z = 24
  · rw [if_pos c24] at h
    refine r_tableIn G (tgt := 1833) dL_law_39 (by rw [c24]; decide) (by rw [c24]; decide) (by rw [c24]; rfl) (by decide) ?_
    exact wL_c24 hE hT hfl hC hSt G hX hbl hbA hcC hcS i s hk h
  rw [if_neg c24] at h
  by_cases c25 : z = 25
  · rw [if_pos c25] at h
    refine r_tableIn G (tgt := 1846) dL_law_39 (by rw [c25]; decide) (by rw [c25]; decide) (by rw [c25]; rfl) (by decide) ?_
    exact wL_c25 hE hT hfl hC hSt G hX hbl hbA hcC hcS i s hk h
  rw [if_neg c25] at h
  by_cases c26 : z = 26
  · rw [if_pos c26] at h
    refine r_tableIn G (tgt := 1859) dL_law_39 (by rw [c26]; decide) (by rw [c26]; decide) (by rw [c26]; rfl) (by decide) ?_
    exact wL_c26 hE hT hfl hC hSt G hX hbl hbA hcC hcS i s hk h
  rw [if_neg c26] at h
  by_cases c27 : z = 27
  · rw [if_pos c27] at h
    refine r_tableIn G (tgt := 1915) dL_law_39 (by rw [c27]; decide) (by rw [c27]; decide) (by rw [c27]; rfl) (by decide) ?_
    exact wL_c27 hE hT hfl hC hSt G hX hbl hbA hcC hcS i s hk h
  rw [if_neg c27] at h
  by_cases c28 : z = 28
  · rw [if_pos c28] at h
    refine r_tableIn G (tgt := 1983) dL_law_39 (by rw [c28]; decide) (by rw [c28]; decide) (by rw [c28]; rfl) (by decide) ?_
    exact wL_c28 hE hT hfl hC hSt G hX hbl hbA hcC hcS i s hk h
  rw [if_neg c28] at h
  by_cases c29 : z = 29
  · rw [if_pos c29] at h
    refine r_tableIn G (tgt := 2039) dL_law_39 (by rw [c29]; decide) (by rw [c29]; decide) (by rw [c29]; rfl) (by decide) ?_
    exact wL_c29 hE hT hfl hC hSt G hX hbl hbA hcC hcS i s hk h
  rw [if_neg c29] at h
  by_cases c30 : z = 30
  · rw [if_pos c30] at h
    refine r_tableIn G (tgt := 2102) dL_law_39 (by rw [c30]; decide) (by rw [c30]; decide) (by rw [c30]; rfl) (by decide) ?_
    exact wL_c30 hE hT hfl hC hSt G hX hbl hbA hcC hcS i s hk h
  rw [if_neg c30] at h
  by_cases c31 : z = 31
  · rw [if_pos c31] at h
    refine r_tableIn G (tgt := 2115) dL_law_39 (by rw [c31]; decide) (by rw [c31]; decide) (by rw [c31]; rfl) (by decide) ?_
    exact wL_c31 hE hT hfl hC hSt G hX hbl hbA hcC hcS i s hk h
  rw [if_neg c31] at h
  by_cases c32 : z = 32
  · rw [if_pos c32] at h
    refine r_tableIn G (tgt := 2128) dL_law_39 (by rw [c32]; decide) (by rw [c32]; decide) (by rw [c32]; rfl) (by decide) ?_
    exact wL_c32 hE hT hfl hC hSt G hX hbl hbA hcC hcS i s hk h
  rw [if_neg c32] at h
  by_cases c33 : z = 33
  · rw [if_pos c33] at h
    refine r_tableIn G (tgt := 2184) dL_law_39 (by rw [c33]; decide) (by rw [c33]; decide) (by rw [c33]; rfl) (by decide) ?_
    exact wL_c33 hE hT hfl hC hSt G hX hbl hbA hcC hcS i s hk h
  rw [if_neg c33] at h
  by_cases c34 : z = 34
  · rw [if_pos c34] at h
    refine r_tableIn G (tgt := 2272) dL_law_39 (by rw [c34]; decide) (by rw [c34]; decide) (by rw [c34]; rfl) (by decide) ?_
    exact wL_c34 hE hT hfl hC hSt G hX hbl hbA hcC hcS i s hk h
  rw [if_neg c34] at h
  by_cases c35 : z = 35
  · rw [if_pos c35] at h
    refine r_tableIn G (tgt := 2285) dL_law_39 (by rw [c35]; decide) (by rw [c35]; decide) (by rw [c35]; rfl) (by decide) ?_
    exact wL_c35 hE hT hfl hC hSt G hX hbl hbA hcC hcS i s hk h
  rw [if_neg c35] at h
  by_cases c36 : z = 36
  · rw [if_pos c36] at h
    refine r_tableIn G (tgt := 2298) dL_law_39 (by rw [c36]; decide) (by rw [c36]; decide) (by rw [c36]; rfl) (by decide) ?_
    exact wL_c36 hE hT hfl hC hSt G hX hbl hbA hcC hcS i s hk h
  rw [if_neg c36] at h
  by_cases c37 : z = 37
  · rw [if_pos c37] at h
    refine r_tableIn G (tgt := 2354) dL_law_39 (by rw [c37]; decide) (by rw [c37]; decide) (by rw [c37]; rfl) (by decide) ?_
    exact wL_c37 hE hT hfl hC hSt G hX hbl hbA hcC hcS i s hk h
  rw [if_neg c37] at h
  by_cases c38 : z = 38
  · rw [if_pos c38] at h
    refine r_tableIn G (tgt := 2367) dL_law_39 (by rw [c38]; decide) (by rw [c38]; decide) (by rw [c38]; rfl) (by decide) ?_
    exact wL_c38 hE hT hfl hC hSt G hX hbl hbA hcC hcS i s hk h
  rw [if_neg c38] at h
  by_cases c39 : z = 39
  · rw [if_pos c39] at h
    refine r_tableIn G (tgt := 2380) dL_law_39 (by rw [c39]; decide) (by rw [c39]; decide) (by rw [c39]; rfl) (by decide) ?_
    exact wL_c39 hE hT hfl hC hSt G hX hbl hbA hcC hcS i s hk h
  rw [if_neg c39] at h
  by_cases c40 : z = 40
  · rw [if_pos c40] at h
    refine r_tableIn G (tgt := 2424) dL_law_39 (by rw [c40]; decide) (by rw [c40]; decide) (by rw [c40]; rfl) (by decide) ?_
    exact wL_c40 hE hT hfl hC hSt G hX hbl hbA hcC hcS i s hk h
  rw [if_neg c40] at h
  by_cases c41 : z = 41
  · rw [if_pos c41] at h
    refine r_tableIn G (tgt := 2499) dL_law_39 (by rw [c41]; decide) (by rw [c41]; decide) (by rw [c41]; rfl) (by decide) ?_
    exact wL_c41 hE hT hfl hC hSt G hX hbl hbA hcC hcS i s hk h
  rw [if_neg c41] at h
  by_cases c42 : z = 42
  · rw [if_pos c42] at h
    refine r_tableIn G (tgt := 2586) dL_law_39 (by rw [c42]; decide) (by rw [c42]; decide) (by rw [c42]; rfl) (by decide) ?_
    exact wL_c42 hE hT hfl hC hSt G hX hbl hbA hcC hcS i s hk h
  rw [if_neg c42] at h
  by_cases c43 : z = 43
  · rw [if_pos c43] at h
    refine r_tableIn G (tgt := 2654) dL_law_39 (by rw [c43]; decide) (by rw [c43]; decide) (by rw [c43]; rfl) (by decide) ?_
    exact wL_c43 hE hT hfl hC hSt G hX hbl hbA hcC hcS i s hk h
  rw [if_neg c43] at h
  by_cases c44 : z = 44
  · rw [if_pos c44] at h
    refine r_tableIn G (tgt := 2729) dL_law_39 (by rw [c44]; decide) (by rw [c44]; decide) (by rw [c44]; rfl) (by decide) ?_
    exact wL_c44 hE hT hfl hC hSt G hX hbl hbA hcC hcS i s hk h
  rw [if_neg c44] at h
  by_cases c45 : z = 45
  · rw [if_pos c45] at h
    refine r_tableIn G (tgt := 2809) dL_law_39 (by rw [c45]; decide) (by rw [c45]; decide) (by rw [c45]; rfl) (by decide) ?_
    exact wL_c45 hE hT hfl hC hSt G hX hbl hbA hcC hcS i s hk h
  rw [if_neg c45] at h
  by_cases c46 : z = 46
  · rw [if_pos c46] at h
    refine r_tableIn G (tgt := 2822) dL_law_39 (by rw [c46]; decide) (by rw [c46]; decide) (by rw [c46]; rfl) (by decide) ?_
    exact wL_c46 hE hT hfl hC hSt G hX hbl hbA hcC hcS i s hk h
  rw [if_neg c46] at h
  by_cases c47 : z = 47
  · rw [if_pos c47] at h
    refine r_tableIn G (tgt := 2863) dL_law_39 (by rw [c47]; decide) (by rw [c47]; decide) (by rw [c47]; rfl) (by decide) ?_
    exact wL_c47 hE hT hfl hC hSt G hX hbl hbA hcC hcS i s hk h
  rw [if_neg c47] at h
  refine r_tableOut G (tgt := 2906) dL_law_39 (tsw 48 (lt_s (lt_s (lt_s (lt_s (lt_s (lt_s (lt_s (lt_s (lt_s (lt_s (lt_s (lt_s (lt_s (lt_s (lt_s (lt_s (lt_s (lt_s (lt_s (lt_s (lt_s (lt_s (lt_s (lt_s (lt_s (lt_s (lt_s (lt_s (lt_s (lt_s (lt_s (lt_s (lt_s (lt_s (lt_s (lt_s (lt_s (lt_s (lt_s (lt_s (lt_s (lt_s (lt_s (lt_s (lt_s (lt_s (lt_s (lt_s (lt_0) c0) c1) c2) c3) c4) c5) c6) c7) c8) c9) c10) c11) c12) c13) c14) c15) c16) c17) c18) c19) c20) c21) c22) c23) c24) c25) c26) c27) c28) c29) c30) c31) c32) c33) c34) c35) c36) c37) c38) c39) c40) c41) c42) c43) c44) c45) c46) c47)) (by decide) ?_
  have h := Option.some.inj h
  subst h
  exact V.widen (Nat.le_add_right _ _) (Nat.le_add_right _ _) hk
set_option maxHeartbeats 4000000 in
set_option maxRecDepth 100000 in
theorem wL_loop {E : evT} {l : Launch} {D : va_G} {ad bd : Nat → Nat} {qo : Nat} {κ : Nat → ClassId} {kK kV : Nat → Nat} (hE : EvOk E) (hT : TOk E) (hfl : l.stackTraces = false) (hC : COk E) (hSt : SOk E kK kV) {Γ : cxT} (G : Cx (lW ad bd κ qo) D (tyA κ) E l Γ code RL wsL_law 9 room_1) {b L : Nat} {ys : Nat → Int32} (hX : va_X b L ys (xs Γ) (xH Γ)) (hbl : b < (xH Γ).size) (hbA : ¬ xA Γ b) (hend : ∀ (i : Int32) (s : lS), V (lW ad bd κ qo) D Γ s 9000 52000 2912 [(0, .ref b), (1, .ref (ad 55)), (2, .ref (bd 67)), (3, .ref qo), (4, .int i)] []) : ∀ (fuel : Nat), fuel ≤ 1100 → ∀ (i : Int32) (s o : lS), fL_loop L ys fuel i s = some o → V (lW ad bd κ qo) D Γ s (200 + 8 * (1100 - fuel)) (8000 + 40 * (1100 - fuel)) 23 [(0, .ref b), (1, .ref (ad 55)), (2, .ref (bd 67)), (3, .ref qo), (4, .int i)] [] := by
  intro fuel
  induction fuel with
  | zero =>
    intro _ _ _ _ h
    have h : none = some _ := h
    cases h
  | succ fuel ih =>
    intro hf i s o h
    rw [fL_loop] at h
    refine r_iload G 4 rfl dL_law_23 ?_
    refine r_aload_n G 0 rfl rfl dL_law_25 ?_
    refine r_slen G hX hbl hbA dL_law_26 ?_
    refine r_iconst G (v := 5) (by decide) dL_law_27 ?_
    refine r_isub G dL_law_28 ?_
    refine r_icmp_gt G (tgt := 2912) dL_law_29 (by decide) (fun c => ?_) (fun c => ?_)
    · exact V.widen (by omega) (by omega) (hend i s)
    · rw [if_neg c] at h
      obtain ⟨o1, e1, h⟩ := ob h
      refine wL_body hE hT hfl hC hSt G hX hbl hbA (by show _ ≤ 601024; omega) (by show _ ≤ 7293034; omega) i s ?_ e1
      refine r_iinc G (j := 4) rfl (v := i + 5) (lv' := [(0, .ref b), (1, .ref (ad 55)), (2, .ref (bd 67)), (3, .ref qo), (4, .int (i + 5))]) rfl [1, 2, 3, 4, 0] rfl (by decide) dL_law_2906 ?_
      refine r_goto G (tgt := 23) dL_law_2909 (by decide) ?_
      exact V.widen (by omega) (by omega) (ih (by omega) (i + 5) o1 o h)
