theorem hdL_viewHas : yL_viewHas.cls ≠ "java/lang/invoke/MethodHandle" ∧ yL_viewHas.cls ≠ "java/lang/invoke/VarHandle" ∧ (parseMethodDescriptor yL_viewHas.desc).map (fun d => d.parameters.length) = some 4 := by decide +kernel
theorem hdX8_viewHas : yX8_viewHas.cls = RX8 ∧ yX8_viewHas.cls ≠ "java/lang/invoke/MethodHandle" ∧ yX8_viewHas.cls ≠ "java/lang/invoke/VarHandle" ∧ (parseMethodDescriptor yX8_viewHas.desc).map (fun d => d.parameters.length) = some 2 := by decide +kernel
set_option maxHeartbeats 4000000 in
set_option maxRecDepth 100000 in
theorem wL_c40 {E : evT} {l : Launch} {D : va_G} {ad bd : Nat → Nat} {qo : Nat} {κ : Nat → ClassId} {kK kV : Nat → Nat} (hE : EvOk E) (hT : TOk E) (hfl : l.stackTraces = false) (hC : COk E) (hSt : SOk E kK kV) {Γ : cxT} (G : Cx (lW ad bd κ qo) D (tyA κ) E l Γ code RL wsL_law 9 room_1) {b L : Nat} {ys : Nat → Int32} (hX : va_X b L ys (xs Γ) (xH Γ)) (hbl : b < (xH Γ).size) (hbA : ¬ xA Γ b) {C S : Nat} (hcC : C + 8 ≤ room_1.cells) (hcS : S + 40 ≤ room_1.slots) (i : Int32) (s : lS) {o : lS} (hk : V (lW ad bd κ qo) D Γ o (C + 8) (S + 40) 2906 [(0, .ref b), (1, .ref (ad 55)), (2, .ref (bd 67)), (3, .ref qo), (4, .int i)] []) (h : fL_c40 L ys i s = some o) : V (lW ad bd κ qo) D Γ s C S 2424 [(0, .ref b), (1, .ref (ad 55)), (2, .ref (bd 67)), (3, .ref qo), (4, .int i)] [] := by
  rw [fL_c40] at h
  refine r_aload_n G 1 rfl rfl dL_law_2424 ?_
  refine r_aload_n G 0 rfl rfl dL_law_2425 ?_
  refine r_iload G 4 rfl dL_law_2426 ?_
  refine r_iconst G (v := 1) (by decide) dL_law_2428 ?_
  refine r_iadd G dL_law_2429 ?_
  obtain ⟨g1, h⟩ := og h
  refine r_sld G hX hbl hbA (vin_in g1) dL_law_2430 ?_
  refine r_aload_n G 0 rfl rfl dL_law_2431 ?_
  refine r_iload G 4 rfl dL_law_2432 ?_
  refine r_iconst G (v := 2) (by decide) dL_law_2434 ?_
  refine r_iadd G dL_law_2435 ?_
  obtain ⟨g2, h⟩ := og h
  refine r_sld G hX hbl hbA (vin_in g2) dL_law_2436 ?_
  refine r_aload_n G 3 rfl rfl dL_law_2437 ?_
  obtain ⟨o3, e3, h⟩ := ob h
  refine r_callSixH G [.ref (ad 55), .int (ys (i + 1).toNatClampNeg), .int (ys (i + 2).toNatClampNeg), .ref qo] (qL_viewHas hE hT hfl hC (ys (i + 1).toNatClampNeg) (ys (i + 2).toNatClampNeg) _ e3) gL_law_L_viewHas rfl hdL_viewHas ⟨Nat.le_of_ble_eq_true rfl, Nat.le_of_ble_eq_true rfl⟩ (Nat.le_of_ble_eq_true rfl) rfl ⟨by first | exact hcC | exact Nat.le_trans (Nat.le_add_right _ 8) hcC, by first | exact hcS | exact Nat.le_trans (Nat.le_add_right _ 40) hcS⟩ rfl rfl dL_law_2438 (fun k9 st9 hp9 => ?_) (fun r3 s3 hp hn3 => ?_)
  · subst hp9
    try dsimp only [Sum.elim_inl] at h
    cases h
  subst hp
  try dsimp only [Sum.elim_inr] at h
  refine r_istore G (lv' := [(0, .ref b), (1, .ref (ad 55)), (2, .ref (bd 67)), (3, .ref qo), (4, .int i), (5, .int r3)]) [1, 2, 3, 4, 5, 0] rfl (by decide) dL_law_2441 ?_
  refine r_aload_n G 2 rfl rfl dL_law_2443 ?_
  refine r_aload_n G 0 rfl rfl dL_law_2444 ?_
  refine r_iload G 4 rfl dL_law_2445 ?_
  refine r_iconst G (v := 1) (by decide) dL_law_2447 ?_
  refine r_iadd G dL_law_2448 ?_
  obtain ⟨g4, h⟩ := og h
  refine r_sld G hX hbl hbA (vin_in g4) dL_law_2449 ?_
  refine r_aload_n G 0 rfl rfl dL_law_2450 ?_
  refine r_iload G 4 rfl dL_law_2451 ?_
  refine r_iconst G (v := 2) (by decide) dL_law_2453 ?_
  refine r_iadd G dL_law_2454 ?_
  obtain ⟨g5, h⟩ := og h
  refine r_sld G hX hbl hbA (vin_in g5) dL_law_2455 ?_
  obtain ⟨o6, e6, h⟩ := ob h
  refine e_callVi G (fun x9 : mS => (s3.1, x9, s3.2.2)) (fun x9 => lW_m ad bd κ qo _ x9 _) rfl [.int (ys (i + 1).toNatClampNeg), .int (ys (i + 2).toNatClampNeg)] (qX8_viewHas hE (ys (i + 1).toNatClampNeg) (ys (i + 2).toNatClampNeg) _ e6) ⟨146, 8, _, _, rfl, (lw_MO ad bd κ qo _), rfl⟩ gL_law_X8_viewHas rfl hdX8_viewHas ⟨Nat.le_of_ble_eq_true rfl, Nat.le_of_ble_eq_true rfl⟩ (Nat.le_of_ble_eq_true rfl) rfl ⟨by first | exact hcC | exact Nat.le_trans (Nat.le_add_right _ 8) hcC, by first | exact hcS | exact Nat.le_trans (Nat.le_add_right _ 40) hcS⟩ rfl rfl dL_law_2456 (fun r6 s6 hp hn6 => ?_)
  subst hp
  try dsimp only at h
  refine r_istore G (lv' := [(0, .ref b), (1, .ref (ad 55)), (2, .ref (bd 67)), (3, .ref qo), (4, .int i), (5, .int r3), (6, .int r6)]) [1, 2, 3, 4, 5, 6, 0] rfl (by decide) dL_law_2459 ?_
  refine r_aload_n G 2 rfl rfl dL_law_2461 ?_
  refine e_callVi G (fun x9 : mS => (s3.1, x9, s3.2.2)) (fun x9 => lW_m ad bd κ qo _ x9 _) rfl [] (qX8_thrown hE _) ⟨146, 8, _, _, rfl, (lw_MO ad bd κ qo _), rfl⟩ gL_law_X8_thrown rfl hdX8_thrown ⟨Nat.le_of_ble_eq_true rfl, Nat.le_of_ble_eq_true rfl⟩ (Nat.le_of_ble_eq_true rfl) rfl ⟨by first | exact hcC | exact Nat.le_trans (Nat.le_add_right _ 8) hcC, by first | exact hcS | exact Nat.le_trans (Nat.le_add_right _ 40) hcS⟩ rfl rfl dL_law_2462 (fun r7 s7 hp hn7 => ?_)
  obtain ⟨rfl, hs⟩ := hp
  have hs := hs.symm
  subst hs
  refine r_iload G 5 rfl dL_law_2465 ?_
  refine r_icmp_eq G (tgt := 2472) dL_law_2467 (by decide) (fun c => ?_) (fun c => ?_)
  · rw [if_pos c] at h
    refine r_iload G 5 rfl dL_law_2472 ?_
    refine r_if_ne G (tgt := 2496) dL_law_2474 (by decide) (fun c => ?_) (fun c => ?_)
    · rw [if_neg c] at h
      refine r_goto G (tgt := 2906) dL_law_2496 (by decide) ?_
      refine V.sub (lv' := [(0, .ref b), (1, .ref (ad 55)), (2, .ref (bd 67)), (3, .ref qo), (4, .int i)]) [0, 1, 2, 3, 4] rfl ?_
      have h := Option.some.inj h
      subst h
      exact V.widen (by first | exact Nat.le_refl _ | exact Nat.le_add_right _ _) (by first | exact Nat.le_refl _ | exact Nat.le_add_right _ _) hk
    · rw [if_pos c] at h
      refine r_aload_n G 3 rfl rfl dL_law_2477 ?_
      refine r_iconst G (v := 0) (by decide) dL_law_2478 ?_
      refine r_outld G dL_law_2479 ?_
      refine r_iload G 6 rfl dL_law_2480 ?_
      refine r_if_eq G (tgt := 2489) dL_law_2482 (by decide) (fun c => ?_) (fun c => ?_)
      · rw [if_pos c] at h
        refine r_lconst G (v := 0) (by decide) dL_law_2489 ?_
        refine r_lcmp G dL_law_2490 ?_
        refine r_if_eq G (tgt := 2496) dL_law_2491 (by decide) (fun c => ?_) (fun c => ?_)
        · rw [if_pos c] at h
          refine r_goto G (tgt := 2906) dL_law_2496 (by decide) ?_
          refine V.sub (lv' := [(0, .ref b), (1, .ref (ad 55)), (2, .ref (bd 67)), (3, .ref qo), (4, .int i)]) [0, 1, 2, 3, 4] rfl ?_
          have h := Option.some.inj h
          subst h
          exact V.widen (by first | exact Nat.le_refl _ | exact Nat.le_add_right _ _) (by first | exact Nat.le_refl _ | exact Nat.le_add_right _ _) hk
        · rw [if_neg c] at h
          refine r_iconst G (v := 0) (by decide) dL_law_2494 ?_
          cases h
      · rw [if_neg c] at h
        refine r_lconst G (v := 1) (by decide) dL_law_2485 ?_
        refine r_goto G (tgt := 2490) dL_law_2486 (by decide) ?_
        refine r_lcmp G dL_law_2490 ?_
        refine r_if_eq G (tgt := 2496) dL_law_2491 (by decide) (fun c => ?_) (fun c => ?_)
        · rw [if_pos c] at h
          refine r_goto G (tgt := 2906) dL_law_2496 (by decide) ?_
          refine V.sub (lv' := [(0, .ref b), (1, .ref (ad 55)), (2, .ref (bd 67)), (3, .ref qo), (4, .int i)]) [0, 1, 2, 3, 4] rfl ?_
          have h := Option.some.inj h
          subst h
          exact V.widen (by first | exact Nat.le_refl _ | exact Nat.le_add_right _ _) (by first | exact Nat.le_refl _ | exact Nat.le_add_right _ _) hk
        · rw [if_neg c] at h
          refine r_iconst G (v := 0) (by decide) dL_law_2494 ?_
          cases h
  · rw [if_neg c] at h
    refine r_iconst G (v := 0) (by decide) dL_law_2470 ?_
    cases h

theorem hdL_viewRefuses : yL_viewRefuses.cls ≠ "java/lang/invoke/MethodHandle" ∧ yL_viewRefuses.cls ≠ "java/lang/invoke/VarHandle" ∧ (parseMethodDescriptor yL_viewRefuses.desc).map (fun d => d.parameters.length) = some 5 := by decide +kernel
theorem hdX8_viewRefuses : yX8_viewRefuses.cls = RX8 ∧ yX8_viewRefuses.cls ≠ "java/lang/invoke/MethodHandle" ∧ yX8_viewRefuses.cls ≠ "java/lang/invoke/VarHandle" ∧ (parseMethodDescriptor yX8_viewRefuses.desc).map (fun d => d.parameters.length) = some 3 := by decide +kernel
set_option maxHeartbeats 4000000 in
set_option maxRecDepth 100000 in
theorem wL_c41 {E : evT} {l : Launch} {D : va_G} {ad bd : Nat → Nat} {qo : Nat} {κ : Nat → ClassId} {kK kV : Nat → Nat} (hE : EvOk E) (hT : TOk E) (hfl : l.stackTraces = false) (hC : COk E) (hSt : SOk E kK kV) {Γ : cxT} (G : Cx (lW ad bd κ qo) D (tyA κ) E l Γ code RL wsL_law 9 room_1) {b L : Nat} {ys : Nat → Int32} (hX : va_X b L ys (xs Γ) (xH Γ)) (hbl : b < (xH Γ).size) (hbA : ¬ xA Γ b) {C S : Nat} (hcC : C + 8 ≤ room_1.cells) (hcS : S + 40 ≤ room_1.slots) (i : Int32) (s : lS) {o : lS} (hk : V (lW ad bd κ qo) D Γ o (C + 8) (S + 40) 2906 [(0, .ref b), (1, .ref (ad 55)), (2, .ref (bd 67)), (3, .ref qo), (4, .int i)] []) (h : fL_c41 L ys i s = some o) : V (lW ad bd κ qo) D Γ s C S 2499 [(0, .ref b), (1, .ref (ad 55)), (2, .ref (bd 67)), (3, .ref qo), (4, .int i)] [] := by
  rw [fL_c41] at h
  refine r_aload_n G 1 rfl rfl dL_law_2499 ?_
  refine r_aload_n G 0 rfl rfl dL_law_2500 ?_
  refine r_iload G 4 rfl dL_law_2501 ?_
  refine r_iconst G (v := 1) (by decide) dL_law_2503 ?_
  refine r_iadd G dL_law_2504 ?_
  obtain ⟨g1, h⟩ := og h
  refine r_sld G hX hbl hbA (vin_in g1) dL_law_2505 ?_
  refine r_aload_n G 0 rfl rfl dL_law_2506 ?_
  refine r_iload G 4 rfl dL_law_2507 ?_
  refine r_iconst G (v := 2) (by decide) dL_law_2509 ?_
  refine r_iadd G dL_law_2510 ?_
  obtain ⟨g2, h⟩ := og h
  refine r_sld G hX hbl hbA (vin_in g2) dL_law_2511 ?_
  refine r_aload_n G 0 rfl rfl dL_law_2512 ?_
  refine r_iload G 4 rfl dL_law_2513 ?_
  refine r_iconst G (v := 3) (by decide) dL_law_2515 ?_
  refine r_iadd G dL_law_2516 ?_
  obtain ⟨g3, h⟩ := og h
  refine r_sld G hX hbl hbA (vin_in g3) dL_law_2517 ?_
  refine r_aload_n G 3 rfl rfl dL_law_2518 ?_
  obtain ⟨o4, e4, h⟩ := ob h
  refine r_callSixH G [.ref (ad 55), .int (ys (i + 1).toNatClampNeg), .int (ys (i + 2).toNatClampNeg), .int (ys (i + 3).toNatClampNeg), .ref qo] (qL_viewRefuses hE hT hfl hC (ys (i + 1).toNatClampNeg) (ys (i + 2).toNatClampNeg) (ys (i + 3).toNatClampNeg) _ e4) gL_law_L_viewRefuses rfl hdL_viewRefuses ⟨Nat.le_of_ble_eq_true rfl, Nat.le_of_ble_eq_true rfl⟩ (Nat.le_of_ble_eq_true rfl) rfl ⟨by first | exact hcC | exact Nat.le_trans (Nat.le_add_right _ 8) hcC, by first | exact hcS | exact Nat.le_trans (Nat.le_add_right _ 40) hcS⟩ rfl rfl dL_law_2519 (fun k9 st9 hp9 => ?_) (fun r4 s4 hp hn4 => ?_)
  · subst hp9
    try dsimp only [Sum.elim_inl] at h
    cases h
  subst hp
  try dsimp only [Sum.elim_inr] at h
  refine r_istore G (lv' := [(0, .ref b), (1, .ref (ad 55)), (2, .ref (bd 67)), (3, .ref qo), (4, .int i), (5, .int r4)]) [1, 2, 3, 4, 5, 0] rfl (by decide) dL_law_2522 ?_
  refine r_aload_n G 2 rfl rfl dL_law_2524 ?_
  refine r_aload_n G 0 rfl rfl dL_law_2525 ?_
  refine r_iload G 4 rfl dL_law_2526 ?_
  refine r_iconst G (v := 1) (by decide) dL_law_2528 ?_
  refine r_iadd G dL_law_2529 ?_
  obtain ⟨g5, h⟩ := og h
  refine r_sld G hX hbl hbA (vin_in g5) dL_law_2530 ?_
  refine r_aload_n G 0 rfl rfl dL_law_2531 ?_
  refine r_iload G 4 rfl dL_law_2532 ?_
  refine r_iconst G (v := 2) (by decide) dL_law_2534 ?_
  refine r_iadd G dL_law_2535 ?_
  obtain ⟨g6, h⟩ := og h
  refine r_sld G hX hbl hbA (vin_in g6) dL_law_2536 ?_
  refine r_aload_n G 0 rfl rfl dL_law_2537 ?_
  refine r_iload G 4 rfl dL_law_2538 ?_
  refine r_iconst G (v := 3) (by decide) dL_law_2540 ?_
  refine r_iadd G dL_law_2541 ?_
  obtain ⟨g7, h⟩ := og h
  refine r_sld G hX hbl hbA (vin_in g7) dL_law_2542 ?_
  obtain ⟨o8, e8, h⟩ := ob h
  refine e_callVi G (fun x9 : mS => (s4.1, x9, s4.2.2)) (fun x9 => lW_m ad bd κ qo _ x9 _) rfl [.int (ys (i + 1).toNatClampNeg), .int (ys (i + 2).toNatClampNeg), .int (ys (i + 3).toNatClampNeg)] (qX8_viewRefuses hE (ys (i + 1).toNatClampNeg) (ys (i + 2).toNatClampNeg) (ys (i + 3).toNatClampNeg) _ e8) ⟨146, 8, _, _, rfl, (lw_MO ad bd κ qo _), rfl⟩ gL_law_X8_viewRefuses rfl hdX8_viewRefuses ⟨Nat.le_of_ble_eq_true rfl, Nat.le_of_ble_eq_true rfl⟩ (Nat.le_of_ble_eq_true rfl) rfl ⟨by first | exact hcC | exact Nat.le_trans (Nat.le_add_right _ 8) hcC, by first | exact hcS | exact Nat.le_trans (Nat.le_add_right _ 40) hcS⟩ rfl rfl dL_law_2543 (fun r8 s8 hp hn8 => ?_)
  subst hp
  try dsimp only at h
  refine r_istore G (lv' := [(0, .ref b), (1, .ref (ad 55)), (2, .ref (bd 67)), (3, .ref qo), (4, .int i), (5, .int r4), (6, .int r8)]) [1, 2, 3, 4, 5, 6, 0] rfl (by decide) dL_law_2546 ?_
  refine r_aload_n G 2 rfl rfl dL_law_2548 ?_
  refine e_callVi G (fun x9 : mS => (s4.1, x9, s4.2.2)) (fun x9 => lW_m ad bd κ qo _ x9 _) rfl [] (qX8_thrown hE _) ⟨146, 8, _, _, rfl, (lw_MO ad bd κ qo _), rfl⟩ gL_law_X8_thrown rfl hdX8_thrown ⟨Nat.le_of_ble_eq_true rfl, Nat.le_of_ble_eq_true rfl⟩ (Nat.le_of_ble_eq_true rfl) rfl ⟨by first | exact hcC | exact Nat.le_trans (Nat.le_add_right _ 8) hcC, by first | exact hcS | exact Nat.le_trans (Nat.le_add_right _ 40) hcS⟩ rfl rfl dL_law_2549 (fun r9 s9 hp hn9 => ?_)
  obtain ⟨rfl, hs⟩ := hp
  have hs := hs.symm
  subst hs
  refine r_iload G 5 rfl dL_law_2552 ?_
  refine r_icmp_eq G (tgt := 2559) dL_law_2554 (by decide) (fun c => ?_) (fun c => ?_)
  · rw [if_pos c] at h
    refine r_iload G 5 rfl dL_law_2559 ?_
    refine r_if_ne G (tgt := 2583) dL_law_2561 (by decide) (fun c => ?_) (fun c => ?_)
    · rw [if_neg c] at h
      refine r_goto G (tgt := 2906) dL_law_2583 (by decide) ?_
      refine V.sub (lv' := [(0, .ref b), (1, .ref (ad 55)), (2, .ref (bd 67)), (3, .ref qo), (4, .int i)]) [0, 1, 2, 3, 4] rfl ?_
      have h := Option.some.inj h
      subst h
      exact V.widen (by first | exact Nat.le_refl _ | exact Nat.le_add_right _ _) (by first | exact Nat.le_refl _ | exact Nat.le_add_right _ _) hk
    · rw [if_pos c] at h
      refine r_aload_n G 3 rfl rfl dL_law_2564 ?_
      refine r_iconst G (v := 0) (by decide) dL_law_2565 ?_
      refine r_outld G dL_law_2566 ?_
      refine r_iload G 6 rfl dL_law_2567 ?_
      refine r_if_eq G (tgt := 2576) dL_law_2569 (by decide) (fun c => ?_) (fun c => ?_)
      · rw [if_pos c] at h
        refine r_lconst G (v := 0) (by decide) dL_law_2576 ?_
        refine r_lcmp G dL_law_2577 ?_
        refine r_if_eq G (tgt := 2583) dL_law_2578 (by decide) (fun c => ?_) (fun c => ?_)
        · rw [if_pos c] at h
          refine r_goto G (tgt := 2906) dL_law_2583 (by decide) ?_
          refine V.sub (lv' := [(0, .ref b), (1, .ref (ad 55)), (2, .ref (bd 67)), (3, .ref qo), (4, .int i)]) [0, 1, 2, 3, 4] rfl ?_
          have h := Option.some.inj h
          subst h
          exact V.widen (by first | exact Nat.le_refl _ | exact Nat.le_add_right _ _) (by first | exact Nat.le_refl _ | exact Nat.le_add_right _ _) hk
        · rw [if_neg c] at h
          refine r_iconst G (v := 0) (by decide) dL_law_2581 ?_
          cases h
      · rw [if_neg c] at h
        refine r_lconst G (v := 1) (by decide) dL_law_2572 ?_
        refine r_goto G (tgt := 2577) dL_law_2573 (by decide) ?_
        refine r_lcmp G dL_law_2577 ?_
        refine r_if_eq G (tgt := 2583) dL_law_2578 (by decide) (fun c => ?_) (fun c => ?_)
        · rw [if_pos c] at h
          refine r_goto G (tgt := 2906) dL_law_2583 (by decide) ?_
          refine V.sub (lv' := [(0, .ref b), (1, .ref (ad 55)), (2, .ref (bd 67)), (3, .ref qo), (4, .int i)]) [0, 1, 2, 3, 4] rfl ?_
          have h := Option.some.inj h
          subst h
          exact V.widen (by first | exact Nat.le_refl _ | exact Nat.le_add_right _ _) (by first | exact Nat.le_refl _ | exact Nat.le_add_right _ _) hk
        · rw [if_neg c] at h
          refine r_iconst G (v := 0) (by decide) dL_law_2581 ?_
          cases h
  · rw [if_neg c] at h
    refine r_iconst G (v := 0) (by decide) dL_law_2557 ?_
    cases h

theorem hdL_walkRefuses : yL_walkRefuses.cls ≠ "java/lang/invoke/MethodHandle" ∧ yL_walkRefuses.cls ≠ "java/lang/invoke/VarHandle" ∧ (parseMethodDescriptor yL_walkRefuses.desc).map (fun d => d.parameters.length) = some 4 := by decide +kernel
theorem hdX8_walkRefuses : yX8_walkRefuses.cls = RX8 ∧ yX8_walkRefuses.cls ≠ "java/lang/invoke/MethodHandle" ∧ yX8_walkRefuses.cls ≠ "java/lang/invoke/VarHandle" ∧ (parseMethodDescriptor yX8_walkRefuses.desc).map (fun d => d.parameters.length) = some 2 := by decide +kernel
set_option maxHeartbeats 4000000 in
set_option maxRecDepth 100000 in
theorem wL_c42 {E : evT} {l : Launch} {D : va_G} {ad bd : Nat → Nat} {qo : Nat} {κ : Nat → ClassId} {kK kV : Nat → Nat} (hE : EvOk E) (hT : TOk E) (hfl : l.stackTraces = false) (hC : COk E) (hSt : SOk E kK kV) {Γ : cxT} (G : Cx (lW ad bd κ qo) D (tyA κ) E l Γ code RL wsL_law 9 room_1) {b L : Nat} {ys : Nat → Int32} (hX : va_X b L ys (xs Γ) (xH Γ)) (hbl : b < (xH Γ).size) (hbA : ¬ xA Γ b) {C S : Nat} (hcC : C + 8 ≤ room_1.cells) (hcS : S + 40 ≤ room_1.slots) (i : Int32) (s : lS) {o : lS} (hk : V (lW ad bd κ qo) D Γ o (C + 8) (S + 40) 2906 [(0, .ref b), (1, .ref (ad 55)), (2, .ref (bd 67)), (3, .ref qo), (4, .int i)] []) (h : fL_c42 L ys i s = some o) : V (lW ad bd κ qo) D Γ s C S 2586 [(0, .ref b), (1, .ref (ad 55)), (2, .ref (bd 67)), (3, .ref qo), (4, .int i)] [] := by
  rw [fL_c42] at h
  refine r_aload_n G 1 rfl rfl dL_law_2586 ?_
  refine r_aload_n G 0 rfl rfl dL_law_2587 ?_
  refine r_iload G 4 rfl dL_law_2588 ?_
  refine r_iconst G (v := 1) (by decide) dL_law_2590 ?_
  refine r_iadd G dL_law_2591 ?_
  obtain ⟨g1, h⟩ := og h
  refine r_sld G hX hbl hbA (vin_in g1) dL_law_2592 ?_
  refine r_aload_n G 0 rfl rfl dL_law_2593 ?_
  refine r_iload G 4 rfl dL_law_2594 ?_
  refine r_iconst G (v := 2) (by decide) dL_law_2596 ?_
  refine r_iadd G dL_law_2597 ?_
  obtain ⟨g2, h⟩ := og h
  refine r_sld G hX hbl hbA (vin_in g2) dL_law_2598 ?_
  refine r_aload_n G 3 rfl rfl dL_law_2599 ?_
  obtain ⟨o3, e3, h⟩ := ob h
  refine r_callSixH G [.ref (ad 55), .int (ys (i + 1).toNatClampNeg), .int (ys (i + 2).toNatClampNeg), .ref qo] (qL_walkRefuses hE hT hfl hC (ys (i + 1).toNatClampNeg) (ys (i + 2).toNatClampNeg) _ e3) gL_law_L_walkRefuses rfl hdL_walkRefuses ⟨Nat.le_of_ble_eq_true rfl, Nat.le_of_ble_eq_true rfl⟩ (Nat.le_of_ble_eq_true rfl) rfl ⟨by first | exact hcC | exact Nat.le_trans (Nat.le_add_right _ 8) hcC, by first | exact hcS | exact Nat.le_trans (Nat.le_add_right _ 40) hcS⟩ rfl rfl dL_law_2600 (fun k9 st9 hp9 => ?_) (fun r3 s3 hp hn3 => ?_)
  · subst hp9
    try dsimp only [Sum.elim_inl] at h
    cases h
  subst hp
  try dsimp only [Sum.elim_inr] at h
  refine r_istore G (lv' := [(0, .ref b), (1, .ref (ad 55)), (2, .ref (bd 67)), (3, .ref qo), (4, .int i), (5, .int r3)]) [1, 2, 3, 4, 5, 0] rfl (by decide) dL_law_2603 ?_
  refine r_aload_n G 2 rfl rfl dL_law_2605 ?_
  refine r_aload_n G 0 rfl rfl dL_law_2606 ?_
  refine r_iload G 4 rfl dL_law_2607 ?_
  refine r_iconst G (v := 1) (by decide) dL_law_2609 ?_
  refine r_iadd G dL_law_2610 ?_
  obtain ⟨g4, h⟩ := og h
  refine r_sld G hX hbl hbA (vin_in g4) dL_law_2611 ?_
  refine r_aload_n G 0 rfl rfl dL_law_2612 ?_
  refine r_iload G 4 rfl dL_law_2613 ?_
  refine r_iconst G (v := 2) (by decide) dL_law_2615 ?_
  refine r_iadd G dL_law_2616 ?_
  obtain ⟨g5, h⟩ := og h
  refine r_sld G hX hbl hbA (vin_in g5) dL_law_2617 ?_
  obtain ⟨o6, e6, h⟩ := ob h
  refine e_callVi G (fun x9 : mS => (s3.1, x9, s3.2.2)) (fun x9 => lW_m ad bd κ qo _ x9 _) rfl [.int (ys (i + 1).toNatClampNeg), .int (ys (i + 2).toNatClampNeg)] (qX8_walkRefuses hE (ys (i + 1).toNatClampNeg) (ys (i + 2).toNatClampNeg) _ e6) ⟨146, 8, _, _, rfl, (lw_MO ad bd κ qo _), rfl⟩ gL_law_X8_walkRefuses rfl hdX8_walkRefuses ⟨Nat.le_of_ble_eq_true rfl, Nat.le_of_ble_eq_true rfl⟩ (Nat.le_of_ble_eq_true rfl) rfl ⟨by first | exact hcC | exact Nat.le_trans (Nat.le_add_right _ 8) hcC, by first | exact hcS | exact Nat.le_trans (Nat.le_add_right _ 40) hcS⟩ rfl rfl dL_law_2618 (fun r6 s6 hp hn6 => ?_)
  subst hp
  try dsimp only at h
  refine r_istore G (lv' := [(0, .ref b), (1, .ref (ad 55)), (2, .ref (bd 67)), (3, .ref qo), (4, .int i), (5, .int r3), (6, .int r6)]) [1, 2, 3, 4, 5, 6, 0] rfl (by decide) dL_law_2621 ?_
  refine r_aload_n G 2 rfl rfl dL_law_2623 ?_
  refine e_callVi G (fun x9 : mS => (s3.1, x9, s3.2.2)) (fun x9 => lW_m ad bd κ qo _ x9 _) rfl [] (qX8_thrown hE _) ⟨146, 8, _, _, rfl, (lw_MO ad bd κ qo _), rfl⟩ gL_law_X8_thrown rfl hdX8_thrown ⟨Nat.le_of_ble_eq_true rfl, Nat.le_of_ble_eq_true rfl⟩ (Nat.le_of_ble_eq_true rfl) rfl ⟨by first | exact hcC | exact Nat.le_trans (Nat.le_add_right _ 8) hcC, by first | exact hcS | exact Nat.le_trans (Nat.le_add_right _ 40) hcS⟩ rfl rfl dL_law_2624 (fun r7 s7 hp hn7 => ?_)
  obtain ⟨rfl, hs⟩ := hp
  have hs := hs.symm
  subst hs
  refine r_iload G 5 rfl dL_law_2627 ?_
  refine r_icmp_eq G (tgt := 2634) dL_law_2629 (by decide) (fun c => ?_) (fun c => ?_)
  · rw [if_pos c] at h
    refine r_iload G 5 rfl dL_law_2634 ?_
    refine r_if_ne G (tgt := 2651) dL_law_2636 (by decide) (fun c => ?_) (fun c => ?_)
    · rw [if_neg c] at h
      refine r_goto G (tgt := 2906) dL_law_2651 (by decide) ?_
      refine V.sub (lv' := [(0, .ref b), (1, .ref (ad 55)), (2, .ref (bd 67)), (3, .ref qo), (4, .int i)]) [0, 1, 2, 3, 4] rfl ?_
      have h := Option.some.inj h
      subst h
      exact V.widen (by first | exact Nat.le_refl _ | exact Nat.le_add_right _ _) (by first | exact Nat.le_refl _ | exact Nat.le_add_right _ _) hk
    · rw [if_pos c] at h
      refine r_aload_n G 3 rfl rfl dL_law_2639 ?_
      refine r_iconst G (v := 0) (by decide) dL_law_2640 ?_
      refine r_outld G dL_law_2641 ?_
      refine r_iload G 6 rfl dL_law_2642 ?_
      refine r_i2l G dL_law_2644 ?_
      refine r_lcmp G dL_law_2645 ?_
      refine r_if_eq G (tgt := 2651) dL_law_2646 (by decide) (fun c => ?_) (fun c => ?_)
      · rw [if_pos c] at h
        refine r_goto G (tgt := 2906) dL_law_2651 (by decide) ?_
        refine V.sub (lv' := [(0, .ref b), (1, .ref (ad 55)), (2, .ref (bd 67)), (3, .ref qo), (4, .int i)]) [0, 1, 2, 3, 4] rfl ?_
        have h := Option.some.inj h
        subst h
        exact V.widen (by first | exact Nat.le_refl _ | exact Nat.le_add_right _ _) (by first | exact Nat.le_refl _ | exact Nat.le_add_right _ _) hk
      · rw [if_neg c] at h
        refine r_iconst G (v := 0) (by decide) dL_law_2649 ?_
        cases h
  · rw [if_neg c] at h
    refine r_iconst G (v := 0) (by decide) dL_law_2632 ?_
    cases h

theorem hdL_nullRefuses : yL_nullRefuses.cls ≠ "java/lang/invoke/MethodHandle" ∧ yL_nullRefuses.cls ≠ "java/lang/invoke/VarHandle" ∧ (parseMethodDescriptor yL_nullRefuses.desc).map (fun d => d.parameters.length) = some 4 := by decide +kernel
theorem hdX8_nullRefuses : yX8_nullRefuses.cls = RX8 ∧ yX8_nullRefuses.cls ≠ "java/lang/invoke/MethodHandle" ∧ yX8_nullRefuses.cls ≠ "java/lang/invoke/VarHandle" ∧ (parseMethodDescriptor yX8_nullRefuses.desc).map (fun d => d.parameters.length) = some 2 := by decide +kernel
set_option maxHeartbeats 4000000 in
set_option maxRecDepth 100000 in
theorem wL_c43 {E : evT} {l : Launch} {D : va_G} {ad bd : Nat → Nat} {qo : Nat} {κ : Nat → ClassId} {kK kV : Nat → Nat} (hE : EvOk E) (hT : TOk E) (hfl : l.stackTraces = false) (hC : COk E) (hSt : SOk E kK kV) {Γ : cxT} (G : Cx (lW ad bd κ qo) D (tyA κ) E l Γ code RL wsL_law 9 room_1) {b L : Nat} {ys : Nat → Int32} (hX : va_X b L ys (xs Γ) (xH Γ)) (hbl : b < (xH Γ).size) (hbA : ¬ xA Γ b) {C S : Nat} (hcC : C + 8 ≤ room_1.cells) (hcS : S + 40 ≤ room_1.slots) (i : Int32) (s : lS) {o : lS} (hk : V (lW ad bd κ qo) D Γ o (C + 8) (S + 40) 2906 [(0, .ref b), (1, .ref (ad 55)), (2, .ref (bd 67)), (3, .ref qo), (4, .int i)] []) (h : fL_c43 L ys i s = some o) : V (lW ad bd κ qo) D Γ s C S 2654 [(0, .ref b), (1, .ref (ad 55)), (2, .ref (bd 67)), (3, .ref qo), (4, .int i)] [] := by
  rw [fL_c43] at h
  refine r_aload_n G 1 rfl rfl dL_law_2654 ?_
  refine r_aload_n G 0 rfl rfl dL_law_2655 ?_
  refine r_iload G 4 rfl dL_law_2656 ?_
  refine r_iconst G (v := 1) (by decide) dL_law_2658 ?_
  refine r_iadd G dL_law_2659 ?_
  obtain ⟨g1, h⟩ := og h
  refine r_sld G hX hbl hbA (vin_in g1) dL_law_2660 ?_
  refine r_aload_n G 0 rfl rfl dL_law_2661 ?_
  refine r_iload G 4 rfl dL_law_2662 ?_
  refine r_iconst G (v := 2) (by decide) dL_law_2664 ?_
  refine r_iadd G dL_law_2665 ?_
  obtain ⟨g2, h⟩ := og h
  refine r_sld G hX hbl hbA (vin_in g2) dL_law_2666 ?_
  refine r_aload_n G 3 rfl rfl dL_law_2667 ?_
  obtain ⟨o3, e3, h⟩ := ob h
  refine r_callSixH G [.ref (ad 55), .int (ys (i + 1).toNatClampNeg), .int (ys (i + 2).toNatClampNeg), .ref qo] (qL_nullRefuses hE hT hfl hC (ys (i + 1).toNatClampNeg) (ys (i + 2).toNatClampNeg) _ e3) gL_law_L_nullRefuses rfl hdL_nullRefuses ⟨Nat.le_of_ble_eq_true rfl, Nat.le_of_ble_eq_true rfl⟩ (Nat.le_of_ble_eq_true rfl) rfl ⟨by first | exact hcC | exact Nat.le_trans (Nat.le_add_right _ 8) hcC, by first | exact hcS | exact Nat.le_trans (Nat.le_add_right _ 40) hcS⟩ rfl rfl dL_law_2668 (fun k9 st9 hp9 => ?_) (fun r3 s3 hp hn3 => ?_)
  · subst hp9
    try dsimp only [Sum.elim_inl] at h
    cases h
  subst hp
  try dsimp only [Sum.elim_inr] at h
  refine r_istore G (lv' := [(0, .ref b), (1, .ref (ad 55)), (2, .ref (bd 67)), (3, .ref qo), (4, .int i), (5, .int r3)]) [1, 2, 3, 4, 5, 0] rfl (by decide) dL_law_2671 ?_
  refine r_aload_n G 2 rfl rfl dL_law_2673 ?_
  refine r_aload_n G 0 rfl rfl dL_law_2674 ?_
  refine r_iload G 4 rfl dL_law_2675 ?_
  refine r_iconst G (v := 1) (by decide) dL_law_2677 ?_
  refine r_iadd G dL_law_2678 ?_
  obtain ⟨g4, h⟩ := og h
  refine r_sld G hX hbl hbA (vin_in g4) dL_law_2679 ?_
  refine r_aload_n G 0 rfl rfl dL_law_2680 ?_
  refine r_iload G 4 rfl dL_law_2681 ?_
  refine r_iconst G (v := 2) (by decide) dL_law_2683 ?_
  refine r_iadd G dL_law_2684 ?_
  obtain ⟨g5, h⟩ := og h
  refine r_sld G hX hbl hbA (vin_in g5) dL_law_2685 ?_
  obtain ⟨o6, e6, h⟩ := ob h
  refine e_callVi G (fun x9 : mS => (s3.1, x9, s3.2.2)) (fun x9 => lW_m ad bd κ qo _ x9 _) rfl [.int (ys (i + 1).toNatClampNeg), .int (ys (i + 2).toNatClampNeg)] (qX8_nullRefuses hE (ys (i + 1).toNatClampNeg) (ys (i + 2).toNatClampNeg) _ e6) ⟨146, 8, _, _, rfl, (lw_MO ad bd κ qo _), rfl⟩ gL_law_X8_nullRefuses rfl hdX8_nullRefuses ⟨Nat.le_of_ble_eq_true rfl, Nat.le_of_ble_eq_true rfl⟩ (Nat.le_of_ble_eq_true rfl) rfl ⟨by first | exact hcC | exact Nat.le_trans (Nat.le_add_right _ 8) hcC, by first | exact hcS | exact Nat.le_trans (Nat.le_add_right _ 40) hcS⟩ rfl rfl dL_law_2686 (fun r6 s6 hp hn6 => ?_)
  subst hp
  try dsimp only at h
  refine r_istore G (lv' := [(0, .ref b), (1, .ref (ad 55)), (2, .ref (bd 67)), (3, .ref qo), (4, .int i), (5, .int r3), (6, .int r6)]) [1, 2, 3, 4, 5, 6, 0] rfl (by decide) dL_law_2689 ?_
  refine r_aload_n G 2 rfl rfl dL_law_2691 ?_
  refine e_callVi G (fun x9 : mS => (s3.1, x9, s3.2.2)) (fun x9 => lW_m ad bd κ qo _ x9 _) rfl [] (qX8_thrown hE _) ⟨146, 8, _, _, rfl, (lw_MO ad bd κ qo _), rfl⟩ gL_law_X8_thrown rfl hdX8_thrown ⟨Nat.le_of_ble_eq_true rfl, Nat.le_of_ble_eq_true rfl⟩ (Nat.le_of_ble_eq_true rfl) rfl ⟨by first | exact hcC | exact Nat.le_trans (Nat.le_add_right _ 8) hcC, by first | exact hcS | exact Nat.le_trans (Nat.le_add_right _ 40) hcS⟩ rfl rfl dL_law_2692 (fun r7 s7 hp hn7 => ?_)
  obtain ⟨rfl, hs⟩ := hp
  have hs := hs.symm
  subst hs
  refine r_iload G 5 rfl dL_law_2695 ?_
  refine r_icmp_eq G (tgt := 2702) dL_law_2697 (by decide) (fun c => ?_) (fun c => ?_)
  · rw [if_pos c] at h
    refine r_iload G 5 rfl dL_law_2702 ?_
    refine r_if_ne G (tgt := 2726) dL_law_2704 (by decide) (fun c => ?_) (fun c => ?_)
    · rw [if_neg c] at h
      refine r_goto G (tgt := 2906) dL_law_2726 (by decide) ?_
      refine V.sub (lv' := [(0, .ref b), (1, .ref (ad 55)), (2, .ref (bd 67)), (3, .ref qo), (4, .int i)]) [0, 1, 2, 3, 4] rfl ?_
      have h := Option.some.inj h
      subst h
      exact V.widen (by first | exact Nat.le_refl _ | exact Nat.le_add_right _ _) (by first | exact Nat.le_refl _ | exact Nat.le_add_right _ _) hk
    · rw [if_pos c] at h
      refine r_aload_n G 3 rfl rfl dL_law_2707 ?_
      refine r_iconst G (v := 0) (by decide) dL_law_2708 ?_
      refine r_outld G dL_law_2709 ?_
      refine r_iload G 6 rfl dL_law_2710 ?_
      refine r_if_eq G (tgt := 2719) dL_law_2712 (by decide) (fun c => ?_) (fun c => ?_)
      · rw [if_pos c] at h
        refine r_lconst G (v := 0) (by decide) dL_law_2719 ?_
        refine r_lcmp G dL_law_2720 ?_
        refine r_if_eq G (tgt := 2726) dL_law_2721 (by decide) (fun c => ?_) (fun c => ?_)
        · rw [if_pos c] at h
          refine r_goto G (tgt := 2906) dL_law_2726 (by decide) ?_
          refine V.sub (lv' := [(0, .ref b), (1, .ref (ad 55)), (2, .ref (bd 67)), (3, .ref qo), (4, .int i)]) [0, 1, 2, 3, 4] rfl ?_
          have h := Option.some.inj h
          subst h
          exact V.widen (by first | exact Nat.le_refl _ | exact Nat.le_add_right _ _) (by first | exact Nat.le_refl _ | exact Nat.le_add_right _ _) hk
        · rw [if_neg c] at h
          refine r_iconst G (v := 0) (by decide) dL_law_2724 ?_
          cases h
      · rw [if_neg c] at h
        refine r_lconst G (v := 1) (by decide) dL_law_2715 ?_
        refine r_goto G (tgt := 2720) dL_law_2716 (by decide) ?_
        refine r_lcmp G dL_law_2720 ?_
        refine r_if_eq G (tgt := 2726) dL_law_2721 (by decide) (fun c => ?_) (fun c => ?_)
        · rw [if_pos c] at h
          refine r_goto G (tgt := 2906) dL_law_2726 (by decide) ?_
          refine V.sub (lv' := [(0, .ref b), (1, .ref (ad 55)), (2, .ref (bd 67)), (3, .ref qo), (4, .int i)]) [0, 1, 2, 3, 4] rfl ?_
          have h := Option.some.inj h
          subst h
          exact V.widen (by first | exact Nat.le_refl _ | exact Nat.le_add_right _ _) (by first | exact Nat.le_refl _ | exact Nat.le_add_right _ _) hk
        · rw [if_neg c] at h
          refine r_iconst G (v := 0) (by decide) dL_law_2724 ?_
          cases h
  · rw [if_neg c] at h
    refine r_iconst G (v := 0) (by decide) dL_law_2700 ?_
    cases h

theorem hdL_lawErrors : yL_lawErrors.cls ≠ "java/lang/invoke/MethodHandle" ∧ yL_lawErrors.cls ≠ "java/lang/invoke/VarHandle" ∧ (parseMethodDescriptor yL_lawErrors.desc).map (fun d => d.parameters.length) = some 5 := by decide +kernel
theorem hdX8_lawErrors : yX8_lawErrors.cls = RX8 ∧ yX8_lawErrors.cls ≠ "java/lang/invoke/MethodHandle" ∧ yX8_lawErrors.cls ≠ "java/lang/invoke/VarHandle" ∧ (parseMethodDescriptor yX8_lawErrors.desc).map (fun d => d.parameters.length) = some 3 := by decide +kernel
set_option maxHeartbeats 4000000 in
set_option maxRecDepth 100000 in
theorem wL_c44 {E : evT} {l : Launch} {D : va_G} {ad bd : Nat → Nat} {qo : Nat} {κ : Nat → ClassId} {kK kV : Nat → Nat} (hE : EvOk E) (hT : TOk E) (hfl : l.stackTraces = false) (hC : COk E) (hSt : SOk E kK kV) {Γ : cxT} (G : Cx (lW ad bd κ qo) D (tyA κ) E l Γ code RL wsL_law 9 room_1) {b L : Nat} {ys : Nat → Int32} (hX : va_X b L ys (xs Γ) (xH Γ)) (hbl : b < (xH Γ).size) (hbA : ¬ xA Γ b) {C S : Nat} (hcC : C + 8 ≤ room_1.cells) (hcS : S + 40 ≤ room_1.slots) (i : Int32) (s : lS) {o : lS} (hk : V (lW ad bd κ qo) D Γ o (C + 8) (S + 40) 2906 [(0, .ref b), (1, .ref (ad 55)), (2, .ref (bd 67)), (3, .ref qo), (4, .int i)] []) (h : fL_c44 L ys i s = some o) : V (lW ad bd κ qo) D Γ s C S 2729 [(0, .ref b), (1, .ref (ad 55)), (2, .ref (bd 67)), (3, .ref qo), (4, .int i)] [] := by
  rw [fL_c44] at h
  refine r_aload_n G 1 rfl rfl dL_law_2729 ?_
  refine r_aload_n G 0 rfl rfl dL_law_2730 ?_
  refine r_iload G 4 rfl dL_law_2731 ?_
  refine r_iconst G (v := 1) (by decide) dL_law_2733 ?_
  refine r_iadd G dL_law_2734 ?_
  obtain ⟨g1, h⟩ := og h
  refine r_sld G hX hbl hbA (vin_in g1) dL_law_2735 ?_
  refine r_aload_n G 0 rfl rfl dL_law_2736 ?_
  refine r_iload G 4 rfl dL_law_2737 ?_
  refine r_iconst G (v := 2) (by decide) dL_law_2739 ?_
  refine r_iadd G dL_law_2740 ?_
  obtain ⟨g2, h⟩ := og h
  refine r_sld G hX hbl hbA (vin_in g2) dL_law_2741 ?_
  refine r_aload_n G 0 rfl rfl dL_law_2742 ?_
  refine r_iload G 4 rfl dL_law_2743 ?_
  refine r_iconst G (v := 3) (by decide) dL_law_2745 ?_
  refine r_iadd G dL_law_2746 ?_
  obtain ⟨g3, h⟩ := og h
  refine r_sld G hX hbl hbA (vin_in g3) dL_law_2747 ?_
  refine r_aload_n G 3 rfl rfl dL_law_2748 ?_
  obtain ⟨o4, e4, h⟩ := ob h
  refine r_callSixH G [.ref (ad 55), .int (ys (i + 1).toNatClampNeg), .int (ys (i + 2).toNatClampNeg), .int (ys (i + 3).toNatClampNeg), .ref qo] (qL_lawErrors hE hT hfl hC (ys (i + 1).toNatClampNeg) (ys (i + 2).toNatClampNeg) (ys (i + 3).toNatClampNeg) _ e4) gL_law_L_lawErrors rfl hdL_lawErrors ⟨Nat.le_of_ble_eq_true rfl, Nat.le_of_ble_eq_true rfl⟩ (Nat.le_of_ble_eq_true rfl) rfl ⟨by first | exact hcC | exact Nat.le_trans (Nat.le_add_right _ 8) hcC, by first | exact hcS | exact Nat.le_trans (Nat.le_add_right _ 40) hcS⟩ rfl rfl dL_law_2749 (fun k9 st9 hp9 => ?_) (fun r4 s4 hp hn4 => ?_)
  · subst hp9
    try dsimp only [Sum.elim_inl] at h
    cases h
  subst hp
  try dsimp only [Sum.elim_inr] at h
  refine r_istore G (lv' := [(0, .ref b), (1, .ref (ad 55)), (2, .ref (bd 67)), (3, .ref qo), (4, .int i), (5, .int r4)]) [1, 2, 3, 4, 5, 0] rfl (by decide) dL_law_2752 ?_
  refine r_aload_n G 2 rfl rfl dL_law_2754 ?_
  refine r_aload_n G 0 rfl rfl dL_law_2755 ?_
  refine r_iload G 4 rfl dL_law_2756 ?_
  refine r_iconst G (v := 1) (by decide) dL_law_2758 ?_
  refine r_iadd G dL_law_2759 ?_
  obtain ⟨g5, h⟩ := og h
  refine r_sld G hX hbl hbA (vin_in g5) dL_law_2760 ?_
  refine r_aload_n G 0 rfl rfl dL_law_2761 ?_
  refine r_iload G 4 rfl dL_law_2762 ?_
  refine r_iconst G (v := 2) (by decide) dL_law_2764 ?_
  refine r_iadd G dL_law_2765 ?_
  obtain ⟨g6, h⟩ := og h
  refine r_sld G hX hbl hbA (vin_in g6) dL_law_2766 ?_
  refine r_aload_n G 0 rfl rfl dL_law_2767 ?_
  refine r_iload G 4 rfl dL_law_2768 ?_
  refine r_iconst G (v := 3) (by decide) dL_law_2770 ?_
  refine r_iadd G dL_law_2771 ?_
  obtain ⟨g7, h⟩ := og h
  refine r_sld G hX hbl hbA (vin_in g7) dL_law_2772 ?_
  obtain ⟨o8, e8, h⟩ := ob h
  refine e_callVi G (fun x9 : mS => (s4.1, x9, s4.2.2)) (fun x9 => lW_m ad bd κ qo _ x9 _) rfl [.int (ys (i + 1).toNatClampNeg), .int (ys (i + 2).toNatClampNeg), .int (ys (i + 3).toNatClampNeg)] (qX8_lawErrors hE (ys (i + 1).toNatClampNeg) (ys (i + 2).toNatClampNeg) (ys (i + 3).toNatClampNeg) _ e8) ⟨146, 8, _, _, rfl, (lw_MO ad bd κ qo _), rfl⟩ gL_law_X8_lawErrors rfl hdX8_lawErrors ⟨Nat.le_of_ble_eq_true rfl, Nat.le_of_ble_eq_true rfl⟩ (Nat.le_of_ble_eq_true rfl) rfl ⟨by first | exact hcC | exact Nat.le_trans (Nat.le_add_right _ 8) hcC, by first | exact hcS | exact Nat.le_trans (Nat.le_add_right _ 40) hcS⟩ rfl rfl dL_law_2773 (fun r8 s8 hp hn8 => ?_)
  subst hp
  try dsimp only at h
  refine r_istore G (lv' := [(0, .ref b), (1, .ref (ad 55)), (2, .ref (bd 67)), (3, .ref qo), (4, .int i), (5, .int r4), (6, .int r8)]) [1, 2, 3, 4, 5, 6, 0] rfl (by decide) dL_law_2776 ?_
  refine r_aload_n G 2 rfl rfl dL_law_2778 ?_
  refine e_callVi G (fun x9 : mS => (s4.1, x9, s4.2.2)) (fun x9 => lW_m ad bd κ qo _ x9 _) rfl [] (qX8_thrown hE _) ⟨146, 8, _, _, rfl, (lw_MO ad bd κ qo _), rfl⟩ gL_law_X8_thrown rfl hdX8_thrown ⟨Nat.le_of_ble_eq_true rfl, Nat.le_of_ble_eq_true rfl⟩ (Nat.le_of_ble_eq_true rfl) rfl ⟨by first | exact hcC | exact Nat.le_trans (Nat.le_add_right _ 8) hcC, by first | exact hcS | exact Nat.le_trans (Nat.le_add_right _ 40) hcS⟩ rfl rfl dL_law_2779 (fun r9 s9 hp hn9 => ?_)
  obtain ⟨rfl, hs⟩ := hp
  have hs := hs.symm
  subst hs
  refine r_iload G 5 rfl dL_law_2782 ?_
  refine r_icmp_eq G (tgt := 2789) dL_law_2784 (by decide) (fun c => ?_) (fun c => ?_)
  · rw [if_pos c] at h
    refine r_iload G 5 rfl dL_law_2789 ?_
    refine r_if_ne G (tgt := 2806) dL_law_2791 (by decide) (fun c => ?_) (fun c => ?_)
    · rw [if_neg c] at h
      refine r_goto G (tgt := 2906) dL_law_2806 (by decide) ?_
      refine V.sub (lv' := [(0, .ref b), (1, .ref (ad 55)), (2, .ref (bd 67)), (3, .ref qo), (4, .int i)]) [0, 1, 2, 3, 4] rfl ?_
      have h := Option.some.inj h
      subst h
      exact V.widen (by first | exact Nat.le_refl _ | exact Nat.le_add_right _ _) (by first | exact Nat.le_refl _ | exact Nat.le_add_right _ _) hk
    · rw [if_pos c] at h
      refine r_aload_n G 3 rfl rfl dL_law_2794 ?_
      refine r_iconst G (v := 0) (by decide) dL_law_2795 ?_
      refine r_outld G dL_law_2796 ?_
      refine r_iload G 6 rfl dL_law_2797 ?_
      refine r_i2l G dL_law_2799 ?_
      refine r_lcmp G dL_law_2800 ?_
      refine r_if_eq G (tgt := 2806) dL_law_2801 (by decide) (fun c => ?_) (fun c => ?_)
      · rw [if_pos c] at h
        refine r_goto G (tgt := 2906) dL_law_2806 (by decide) ?_
        refine V.sub (lv' := [(0, .ref b), (1, .ref (ad 55)), (2, .ref (bd 67)), (3, .ref qo), (4, .int i)]) [0, 1, 2, 3, 4] rfl ?_
        have h := Option.some.inj h
        subst h
        exact V.widen (by first | exact Nat.le_refl _ | exact Nat.le_add_right _ _) (by first | exact Nat.le_refl _ | exact Nat.le_add_right _ _) hk
      · rw [if_neg c] at h
        refine r_iconst G (v := 0) (by decide) dL_law_2804 ?_
        cases h
  · rw [if_neg c] at h
    refine r_iconst G (v := 0) (by decide) dL_law_2787 ?_
    cases h

theorem hdX7_familyErrors : yX7_familyErrors.cls = RX7 ∧ yX7_familyErrors.cls ≠ "java/lang/invoke/MethodHandle" ∧ yX7_familyErrors.cls ≠ "java/lang/invoke/VarHandle" ∧ (parseMethodDescriptor yX7_familyErrors.desc).map (fun d => d.parameters.length) = some 0 := by decide +kernel
theorem hdX8_familyErrors : yX8_familyErrors.cls = RX8 ∧ yX8_familyErrors.cls ≠ "java/lang/invoke/MethodHandle" ∧ yX8_familyErrors.cls ≠ "java/lang/invoke/VarHandle" ∧ (parseMethodDescriptor yX8_familyErrors.desc).map (fun d => d.parameters.length) = some 0 := by decide +kernel
set_option maxHeartbeats 4000000 in
set_option maxRecDepth 100000 in
theorem wL_c45 {E : evT} {l : Launch} {D : va_G} {ad bd : Nat → Nat} {qo : Nat} {κ : Nat → ClassId} {kK kV : Nat → Nat} (hE : EvOk E) (hT : TOk E) (hfl : l.stackTraces = false) (hC : COk E) (hSt : SOk E kK kV) {Γ : cxT} (G : Cx (lW ad bd κ qo) D (tyA κ) E l Γ code RL wsL_law 9 room_1) {b L : Nat} {ys : Nat → Int32} (hX : va_X b L ys (xs Γ) (xH Γ)) (hbl : b < (xH Γ).size) (hbA : ¬ xA Γ b) {C S : Nat} (hcC : C + 8 ≤ room_1.cells) (hcS : S + 40 ≤ room_1.slots) (i : Int32) (s : lS) {o : lS} (hk : V (lW ad bd κ qo) D Γ o (C + 8) (S + 40) 2906 [(0, .ref b), (1, .ref (ad 55)), (2, .ref (bd 67)), (3, .ref qo), (4, .int i)] []) (h : fL_c45 L ys i s = some o) : V (lW ad bd κ qo) D Γ s C S 2809 [(0, .ref b), (1, .ref (ad 55)), (2, .ref (bd 67)), (3, .ref qo), (4, .int i)] [] := by
  rw [fL_c45] at h
  refine r_aload_n G 1 rfl rfl dL_law_2809 ?_
  obtain ⟨o1, e1, h⟩ := ob h
  refine e_callVi G (fun x9 : cS => (x9, s.2.1, s.2.2)) (fun x9 => lW_c ad bd κ qo x9 _ _) rfl [] (qX7_familyErrors hE _ e1) ⟨55, 7, _, _, rfl, (lw_SC ad bd κ qo _), rfl⟩ gL_law_X7_familyErrors rfl hdX7_familyErrors ⟨Nat.le_of_ble_eq_true rfl, Nat.le_of_ble_eq_true rfl⟩ (Nat.le_of_ble_eq_true rfl) rfl ⟨by first | exact hcC | exact Nat.le_trans (Nat.le_add_right _ 8) hcC, by first | exact hcS | exact Nat.le_trans (Nat.le_add_right _ 40) hcS⟩ rfl rfl dL_law_2810 (fun r1 s1 hp hn1 => ?_)
  subst hp
  try dsimp only at h
  refine r_aload_n G 2 rfl rfl dL_law_2813 ?_
  obtain ⟨o2, e2, h⟩ := ob h
  refine e_callVi G (fun x9 : mS => (s1, x9, s.2.2)) (fun x9 => lW_m ad bd κ qo _ x9 _) rfl [] (qX8_familyErrors hE _ e2) ⟨146, 8, _, _, rfl, (lw_MO ad bd κ qo _), rfl⟩ gL_law_X8_familyErrors rfl hdX8_familyErrors ⟨Nat.le_of_ble_eq_true rfl, Nat.le_of_ble_eq_true rfl⟩ (Nat.le_of_ble_eq_true rfl) rfl ⟨by first | exact hcC | exact Nat.le_trans (Nat.le_add_right _ 8) hcC, by first | exact hcS | exact Nat.le_trans (Nat.le_add_right _ 40) hcS⟩ rfl rfl dL_law_2814 (fun r2 s2 hp hn2 => ?_)
  subst hp
  try dsimp only at h
  refine r_icmp_eq G (tgt := 2906) dL_law_2817 (by decide) (fun c => ?_) (fun c => ?_)
  · rw [if_pos c] at h
    have h := Option.some.inj h
    subst h
    exact V.widen (by first | exact Nat.le_refl _ | exact Nat.le_add_right _ _) (by first | exact Nat.le_refl _ | exact Nat.le_add_right _ _) hk
  · rw [if_neg c] at h
    refine r_iconst G (v := 0) (by decide) dL_law_2820 ?_
    cases h

theorem hdX7_meanSize : yX7_meanSize.cls = RX7 ∧ yX7_meanSize.cls ≠ "java/lang/invoke/MethodHandle" ∧ yX7_meanSize.cls ≠ "java/lang/invoke/VarHandle" ∧ (parseMethodDescriptor yX7_meanSize.desc).map (fun d => d.parameters.length) = some 0 := by decide +kernel
theorem hdX8_meanSize : yX8_meanSize.cls = RX8 ∧ yX8_meanSize.cls ≠ "java/lang/invoke/MethodHandle" ∧ yX8_meanSize.cls ≠ "java/lang/invoke/VarHandle" ∧ (parseMethodDescriptor yX8_meanSize.desc).map (fun d => d.parameters.length) = some 0 := by decide +kernel
set_option maxHeartbeats 4000000 in
set_option maxRecDepth 100000 in
theorem wL_c46 {E : evT} {l : Launch} {D : va_G} {ad bd : Nat → Nat} {qo : Nat} {κ : Nat → ClassId} {kK kV : Nat → Nat} (hE : EvOk E) (hT : TOk E) (hfl : l.stackTraces = false) (hC : COk E) (hSt : SOk E kK kV) {Γ : cxT} (G : Cx (lW ad bd κ qo) D (tyA κ) E l Γ code RL wsL_law 9 room_1) {b L : Nat} {ys : Nat → Int32} (hX : va_X b L ys (xs Γ) (xH Γ)) (hbl : b < (xH Γ).size) (hbA : ¬ xA Γ b) {C S : Nat} (hcC : C + 8 ≤ room_1.cells) (hcS : S + 40 ≤ room_1.slots) (i : Int32) (s : lS) {o : lS} (hk : V (lW ad bd κ qo) D Γ o (C + 8) (S + 40) 2906 [(0, .ref b), (1, .ref (ad 55)), (2, .ref (bd 67)), (3, .ref qo), (4, .int i)] []) (h : fL_c46 L ys i s = some o) : V (lW ad bd κ qo) D Γ s C S 2822 [(0, .ref b), (1, .ref (ad 55)), (2, .ref (bd 67)), (3, .ref qo), (4, .int i)] [] := by
  rw [fL_c46] at h
  refine r_aload_n G 1 rfl rfl dL_law_2822 ?_
  obtain ⟨o1, e1, h⟩ := ob h
  refine e_callVd G (fun x9 : cS => (x9, s.2.1, s.2.2)) (fun x9 => lW_c ad bd κ qo x9 _ _) rfl [] (qX7_meanSize hE _ e1) ⟨55, 7, _, _, rfl, (lw_SC ad bd κ qo _), rfl⟩ gL_law_X7_meanSize rfl hdX7_meanSize ⟨Nat.le_of_ble_eq_true rfl, Nat.le_of_ble_eq_true rfl⟩ (Nat.le_of_ble_eq_true rfl) rfl ⟨by first | exact hcC | exact Nat.le_trans (Nat.le_add_right _ 8) hcC, by first | exact hcS | exact Nat.le_trans (Nat.le_add_right _ 40) hcS⟩ rfl rfl dL_law_2823 (fun r1 s1 hp => ?_)
  subst hp
  try dsimp only at h
  refine r_dstore G (lv' := [(0, .ref b), (1, .ref (ad 55)), (2, .ref (bd 67)), (3, .ref qo), (4, .int i), (5, .double r1)]) [1, 2, 3, 4, 5, 0] rfl (by decide) dL_law_2826 ?_
  refine r_aload_n G 2 rfl rfl dL_law_2828 ?_
  obtain ⟨o2, e2, h⟩ := ob h
  refine e_callVd G (fun x9 : mS => (s1, x9, s.2.2)) (fun x9 => lW_m ad bd κ qo _ x9 _) rfl [] (qX8_meanSize hE _ e2) ⟨146, 8, _, _, rfl, (lw_MO ad bd κ qo _), rfl⟩ gL_law_X8_meanSize rfl hdX8_meanSize ⟨Nat.le_of_ble_eq_true rfl, Nat.le_of_ble_eq_true rfl⟩ (Nat.le_of_ble_eq_true rfl) rfl ⟨by first | exact hcC | exact Nat.le_trans (Nat.le_add_right _ 8) hcC, by first | exact hcS | exact Nat.le_trans (Nat.le_add_right _ 40) hcS⟩ rfl rfl dL_law_2829 (fun r2 s2 hp => ?_)
  subst hp
  try dsimp only at h
  refine r_dstore G (lv' := [(0, .ref b), (1, .ref (ad 55)), (2, .ref (bd 67)), (3, .ref qo), (4, .int i), (5, .double r1), (7, .double r2)]) [1, 2, 3, 4, 5, 6, 0] rfl (by decide) dL_law_2832 ?_
  refine r_dload G 5 rfl dL_law_2834 ?_
  refine r_dload G 6 rfl dL_law_2836 ?_
  refine r_dcmp G dL_law_2838 ?_
  refine r_if_eq G (tgt := 2860) dL_law_2839 (by decide) (fun c => ?_) (fun c => ?_)
  · rw [if_pos c] at h
    refine r_goto G (tgt := 2906) dL_law_2860 (by decide) ?_
    refine V.sub (lv' := [(0, .ref b), (1, .ref (ad 55)), (2, .ref (bd 67)), (3, .ref qo), (4, .int i)]) [0, 1, 2, 3, 4] rfl ?_
    have h := Option.some.inj h
    subst h
    exact V.widen (by first | exact Nat.le_refl _ | exact Nat.le_add_right _ _) (by first | exact Nat.le_refl _ | exact Nat.le_add_right _ _) hk
  · rw [if_neg c] at h
    refine r_dload G 5 rfl dL_law_2842 ?_
    refine r_dload G 5 rfl dL_law_2844 ?_
    refine r_dcmp G dL_law_2846 ?_
    refine r_if_eq G (tgt := 2858) dL_law_2847 (by decide) (fun c => ?_) (fun c => ?_)
    · rw [if_pos c] at h
      refine r_iconst G (v := 0) (by decide) dL_law_2858 ?_
      cases h
    · rw [if_neg c] at h
      refine r_dload G 6 rfl dL_law_2850 ?_
      refine r_dload G 6 rfl dL_law_2852 ?_
      refine r_dcmp G dL_law_2854 ?_
      refine r_if_ne G (tgt := 2860) dL_law_2855 (by decide) (fun c => ?_) (fun c => ?_)
      · rw [if_neg c] at h
        refine r_goto G (tgt := 2906) dL_law_2860 (by decide) ?_
        refine V.sub (lv' := [(0, .ref b), (1, .ref (ad 55)), (2, .ref (bd 67)), (3, .ref qo), (4, .int i)]) [0, 1, 2, 3, 4] rfl ?_
        have h := Option.some.inj h
        subst h
        exact V.widen (by first | exact Nat.le_refl _ | exact Nat.le_add_right _ _) (by first | exact Nat.le_refl _ | exact Nat.le_add_right _ _) hk
      · rw [if_pos c] at h
        refine r_iconst G (v := 0) (by decide) dL_law_2858 ?_
        cases h

theorem hdX7_nothingShare : yX7_nothingShare.cls = RX7 ∧ yX7_nothingShare.cls ≠ "java/lang/invoke/MethodHandle" ∧ yX7_nothingShare.cls ≠ "java/lang/invoke/VarHandle" ∧ (parseMethodDescriptor yX7_nothingShare.desc).map (fun d => d.parameters.length) = some 0 := by decide +kernel
theorem hdX8_nothingShare : yX8_nothingShare.cls = RX8 ∧ yX8_nothingShare.cls ≠ "java/lang/invoke/MethodHandle" ∧ yX8_nothingShare.cls ≠ "java/lang/invoke/VarHandle" ∧ (parseMethodDescriptor yX8_nothingShare.desc).map (fun d => d.parameters.length) = some 0 := by decide +kernel
set_option maxHeartbeats 4000000 in
set_option maxRecDepth 100000 in
theorem wL_c47 {E : evT} {l : Launch} {D : va_G} {ad bd : Nat → Nat} {qo : Nat} {κ : Nat → ClassId} {kK kV : Nat → Nat} (hE : EvOk E) (hT : TOk E) (hfl : l.stackTraces = false) (hC : COk E) (hSt : SOk E kK kV) {Γ : cxT} (G : Cx (lW ad bd κ qo) D (tyA κ) E l Γ code RL wsL_law 9 room_1) {b L : Nat} {ys : Nat → Int32} (hX : va_X b L ys (xs Γ) (xH Γ)) (hbl : b < (xH Γ).size) (hbA : ¬ xA Γ b) {C S : Nat} (hcC : C + 8 ≤ room_1.cells) (hcS : S + 40 ≤ room_1.slots) (i : Int32) (s : lS) {o : lS} (hk : V (lW ad bd κ qo) D Γ o (C + 8) (S + 40) 2906 [(0, .ref b), (1, .ref (ad 55)), (2, .ref (bd 67)), (3, .ref qo), (4, .int i)] []) (h : fL_c47 L ys i s = some o) : V (lW ad bd κ qo) D Γ s C S 2863 [(0, .ref b), (1, .ref (ad 55)), (2, .ref (bd 67)), (3, .ref qo), (4, .int i)] [] := by
  rw [fL_c47] at h
  refine r_aload_n G 1 rfl rfl dL_law_2863 ?_
  obtain ⟨o1, e1, h⟩ := ob h
  refine e_callVf G (fun x9 : cS => (x9, s.2.1, s.2.2)) (fun x9 => lW_c ad bd κ qo x9 _ _) rfl [] (qX7_nothingShare hE _ e1) ⟨55, 7, _, _, rfl, (lw_SC ad bd κ qo _), rfl⟩ gL_law_X7_nothingShare rfl hdX7_nothingShare ⟨Nat.le_of_ble_eq_true rfl, Nat.le_of_ble_eq_true rfl⟩ (Nat.le_of_ble_eq_true rfl) rfl ⟨by first | exact hcC | exact Nat.le_trans (Nat.le_add_right _ 8) hcC, by first | exact hcS | exact Nat.le_trans (Nat.le_add_right _ 40) hcS⟩ rfl rfl dL_law_2864 (fun r1 s1 hp => ?_)
  subst hp
  try dsimp only at h
  obtain ⟨g2, h⟩ := og h
  refine r_f2d G g2 dL_law_2867 ?_
  refine r_dstore G (lv' := [(0, .ref b), (1, .ref (ad 55)), (2, .ref (bd 67)), (3, .ref qo), (4, .int i), (5, .double (FP.f2d r1))]) [1, 2, 3, 4, 5, 0] rfl (by decide) dL_law_2868 ?_
  refine r_aload_n G 2 rfl rfl dL_law_2870 ?_
  obtain ⟨o3, e3, h⟩ := ob h
  refine e_callVf G (fun x9 : mS => (s1, x9, s.2.2)) (fun x9 => lW_m ad bd κ qo _ x9 _) rfl [] (qX8_nothingShare hE _ e3) ⟨146, 8, _, _, rfl, (lw_MO ad bd κ qo _), rfl⟩ gL_law_X8_nothingShare rfl hdX8_nothingShare ⟨Nat.le_of_ble_eq_true rfl, Nat.le_of_ble_eq_true rfl⟩ (Nat.le_of_ble_eq_true rfl) rfl ⟨by first | exact hcC | exact Nat.le_trans (Nat.le_add_right _ 8) hcC, by first | exact hcS | exact Nat.le_trans (Nat.le_add_right _ 40) hcS⟩ rfl rfl dL_law_2871 (fun r3 s3 hp => ?_)
  subst hp
  try dsimp only at h
  obtain ⟨g4, h⟩ := og h
  refine r_f2d G g4 dL_law_2874 ?_
  refine r_dstore G (lv' := [(0, .ref b), (1, .ref (ad 55)), (2, .ref (bd 67)), (3, .ref qo), (4, .int i), (5, .double (FP.f2d r1)), (7, .double (FP.f2d r3))]) [1, 2, 3, 4, 5, 6, 0] rfl (by decide) dL_law_2875 ?_
  refine r_dload G 5 rfl dL_law_2877 ?_
  refine r_dload G 6 rfl dL_law_2879 ?_
  refine r_dcmp G dL_law_2881 ?_
  refine r_if_eq G (tgt := 2903) dL_law_2882 (by decide) (fun c => ?_) (fun c => ?_)
  · rw [if_pos c] at h
    refine r_goto G (tgt := 2906) dL_law_2903 (by decide) ?_
    refine V.sub (lv' := [(0, .ref b), (1, .ref (ad 55)), (2, .ref (bd 67)), (3, .ref qo), (4, .int i)]) [0, 1, 2, 3, 4] rfl ?_
    have h := Option.some.inj h
    subst h
    exact V.widen (by first | exact Nat.le_refl _ | exact Nat.le_add_right _ _) (by first | exact Nat.le_refl _ | exact Nat.le_add_right _ _) hk
  · rw [if_neg c] at h
    refine r_dload G 5 rfl dL_law_2885 ?_
    refine r_dload G 5 rfl dL_law_2887 ?_
    refine r_dcmp G dL_law_2889 ?_
    refine r_if_eq G (tgt := 2901) dL_law_2890 (by decide) (fun c => ?_) (fun c => ?_)
    · rw [if_pos c] at h
      refine r_iconst G (v := 0) (by decide) dL_law_2901 ?_
      cases h
    · rw [if_neg c] at h
      refine r_dload G 6 rfl dL_law_2893 ?_
      refine r_dload G 6 rfl dL_law_2895 ?_
      refine r_dcmp G dL_law_2897 ?_
      refine r_if_ne G (tgt := 2903) dL_law_2898 (by decide) (fun c => ?_) (fun c => ?_)
      · rw [if_neg c] at h
        refine r_goto G (tgt := 2906) dL_law_2903 (by decide) ?_
        refine V.sub (lv' := [(0, .ref b), (1, .ref (ad 55)), (2, .ref (bd 67)), (3, .ref qo), (4, .int i)]) [0, 1, 2, 3, 4] rfl ?_
        have h := Option.some.inj h
        subst h
        exact V.widen (by first | exact Nat.le_refl _ | exact Nat.le_add_right _ _) (by first | exact Nat.le_refl _ | exact Nat.le_add_right _ _) hk
      · rw [if_pos c] at h
        refine r_iconst G (v := 0) (by decide) dL_law_2901 ?_
        cases h
