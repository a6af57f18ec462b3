theorem hdL_isApart : yL_isApart.cls ≠ "java/lang/invoke/MethodHandle" ∧ yL_isApart.cls ≠ "java/lang/invoke/VarHandle" ∧ (parseMethodDescriptor yL_isApart.desc).map (fun d => d.parameters.length) = some 4 := by decide +kernel
theorem hdX8_isApart : yX8_isApart.cls = RX8 ∧ yX8_isApart.cls ≠ "java/lang/invoke/MethodHandle" ∧ yX8_isApart.cls ≠ "java/lang/invoke/VarHandle" ∧ (parseMethodDescriptor yX8_isApart.desc).map (fun d => d.parameters.length) = some 2 := by decide +kernel
set_option maxHeartbeats 4000000 in
set_option maxRecDepth 100000 in
theorem wL_c16 {E : evT} {l : Launch} {D : va_G} {ad bd : Nat → Nat} {qo : Nat} {κ : Nat → ClassId} {kK kV : Nat → Nat} (hE : EvOk E) (hT : TOk E) (hfl : l.stackTraces = false) (hC : COk E) (hSt : SOk E kK kV) {Γ : cxT} (G : Cx (lW ad bd κ qo) D (tyA κ) E l Γ code RL wsL_law 9 room_1) {b L : Nat} {ys : Nat → Int32} (hX : va_X b L ys (xs Γ) (xH Γ)) (hbl : b < (xH Γ).size) (hbA : ¬ xA Γ b) {C S : Nat} (hcC : C + 8 ≤ room_1.cells) (hcS : S + 40 ≤ room_1.slots) (i : Int32) (s : lS) {o : lS} (hk : V (lW ad bd κ qo) D Γ o (C + 8) (S + 40) 2906 [(0, .ref b), (1, .ref (ad 55)), (2, .ref (bd 67)), (3, .ref qo), (4, .int i)] []) (h : fL_c16 L ys i s = some o) : V (lW ad bd κ qo) D Γ s C S 1357 [(0, .ref b), (1, .ref (ad 55)), (2, .ref (bd 67)), (3, .ref qo), (4, .int i)] [] := by
  rw [fL_c16] at h
  refine r_aload_n G 1 rfl rfl dL_law_1357 ?_
  refine r_aload_n G 0 rfl rfl dL_law_1358 ?_
  refine r_iload G 4 rfl dL_law_1359 ?_
  refine r_iconst G (v := 1) (by decide) dL_law_1361 ?_
  refine r_iadd G dL_law_1362 ?_
  obtain ⟨g1, h⟩ := og h
  refine r_sld G hX hbl hbA (vin_in g1) dL_law_1363 ?_
  refine r_aload_n G 0 rfl rfl dL_law_1364 ?_
  refine r_iload G 4 rfl dL_law_1365 ?_
  refine r_iconst G (v := 2) (by decide) dL_law_1367 ?_
  refine r_iadd G dL_law_1368 ?_
  obtain ⟨g2, h⟩ := og h
  refine r_sld G hX hbl hbA (vin_in g2) dL_law_1369 ?_
  refine r_aload_n G 3 rfl rfl dL_law_1370 ?_
  obtain ⟨o3, e3, h⟩ := ob h
  refine r_callSixH G [.ref (ad 55), .int (ys (i + 1).toNatClampNeg), .int (ys (i + 2).toNatClampNeg), .ref qo] (qL_isApart hE hT hfl hC (ys (i + 1).toNatClampNeg) (ys (i + 2).toNatClampNeg) _ e3) gL_law_L_isApart rfl hdL_isApart ⟨Nat.le_of_ble_eq_true rfl, Nat.le_of_ble_eq_true rfl⟩ (Nat.le_of_ble_eq_true rfl) rfl ⟨by first | exact hcC | exact Nat.le_trans (Nat.le_add_right _ 8) hcC, by first | exact hcS | exact Nat.le_trans (Nat.le_add_right _ 40) hcS⟩ rfl rfl dL_law_1371 (fun k9 st9 hp9 => ?_) (fun r3 s3 hp hn3 => ?_)
  · subst hp9
    try dsimp only [Sum.elim_inl] at h
    cases h
  subst hp
  try dsimp only [Sum.elim_inr] at h
  refine r_istore G (lv' := [(0, .ref b), (1, .ref (ad 55)), (2, .ref (bd 67)), (3, .ref qo), (4, .int i), (5, .int r3)]) [1, 2, 3, 4, 5, 0] rfl (by decide) dL_law_1374 ?_
  refine r_aload_n G 2 rfl rfl dL_law_1376 ?_
  refine r_aload_n G 0 rfl rfl dL_law_1377 ?_
  refine r_iload G 4 rfl dL_law_1378 ?_
  refine r_iconst G (v := 1) (by decide) dL_law_1380 ?_
  refine r_iadd G dL_law_1381 ?_
  obtain ⟨g4, h⟩ := og h
  refine r_sld G hX hbl hbA (vin_in g4) dL_law_1382 ?_
  refine r_aload_n G 0 rfl rfl dL_law_1383 ?_
  refine r_iload G 4 rfl dL_law_1384 ?_
  refine r_iconst G (v := 2) (by decide) dL_law_1386 ?_
  refine r_iadd G dL_law_1387 ?_
  obtain ⟨g5, h⟩ := og h
  refine r_sld G hX hbl hbA (vin_in g5) dL_law_1388 ?_
  obtain ⟨o6, e6, h⟩ := ob h
  refine e_callVi G (fun x9 : mS => (s3.1, x9, s3.2.2)) (fun x9 => lW_m ad bd κ qo _ x9 _) rfl [.int (ys (i + 1).toNatClampNeg), .int (ys (i + 2).toNatClampNeg)] (qX8_isApart hE (ys (i + 1).toNatClampNeg) (ys (i + 2).toNatClampNeg) _ e6) ⟨146, 8, _, _, rfl, (lw_MO ad bd κ qo _), rfl⟩ gL_law_X8_isApart rfl hdX8_isApart ⟨Nat.le_of_ble_eq_true rfl, Nat.le_of_ble_eq_true rfl⟩ (Nat.le_of_ble_eq_true rfl) rfl ⟨by first | exact hcC | exact Nat.le_trans (Nat.le_add_right _ 8) hcC, by first | exact hcS | exact Nat.le_trans (Nat.le_add_right _ 40) hcS⟩ rfl rfl dL_law_1389 (fun r6 s6 hp hn6 => ?_)
  subst hp
  try dsimp only at h
  refine r_istore G (lv' := [(0, .ref b), (1, .ref (ad 55)), (2, .ref (bd 67)), (3, .ref qo), (4, .int i), (5, .int r3), (6, .int r6)]) [1, 2, 3, 4, 5, 6, 0] rfl (by decide) dL_law_1392 ?_
  refine r_aload_n G 2 rfl rfl dL_law_1394 ?_
  refine e_callVi G (fun x9 : mS => (s3.1, x9, s3.2.2)) (fun x9 => lW_m ad bd κ qo _ x9 _) rfl [] (qX8_thrown hE _) ⟨146, 8, _, _, rfl, (lw_MO ad bd κ qo _), rfl⟩ gL_law_X8_thrown rfl hdX8_thrown ⟨Nat.le_of_ble_eq_true rfl, Nat.le_of_ble_eq_true rfl⟩ (Nat.le_of_ble_eq_true rfl) rfl ⟨by first | exact hcC | exact Nat.le_trans (Nat.le_add_right _ 8) hcC, by first | exact hcS | exact Nat.le_trans (Nat.le_add_right _ 40) hcS⟩ rfl rfl dL_law_1395 (fun r7 s7 hp hn7 => ?_)
  obtain ⟨rfl, hs⟩ := hp
  have hs := hs.symm
  subst hs
  refine r_iload G 5 rfl dL_law_1398 ?_
  refine r_icmp_eq G (tgt := 1405) dL_law_1400 (by decide) (fun c => ?_) (fun c => ?_)
  · rw [if_pos c] at h
    refine r_iload G 5 rfl dL_law_1405 ?_
    refine r_if_ne G (tgt := 1429) dL_law_1407 (by decide) (fun c => ?_) (fun c => ?_)
    · rw [if_neg c] at h
      refine r_goto G (tgt := 2906) dL_law_1429 (by decide) ?_
      refine V.sub (lv' := [(0, .ref b), (1, .ref (ad 55)), (2, .ref (bd 67)), (3, .ref qo), (4, .int i)]) [0, 1, 2, 3, 4] rfl ?_
      have h := Option.some.inj h
      subst h
      exact V.widen (by first | exact Nat.le_refl _ | exact Nat.le_add_right _ _) (by first | exact Nat.le_refl _ | exact Nat.le_add_right _ _) hk
    · rw [if_pos c] at h
      refine r_aload_n G 3 rfl rfl dL_law_1410 ?_
      refine r_iconst G (v := 0) (by decide) dL_law_1411 ?_
      refine r_outld G dL_law_1412 ?_
      refine r_iload G 6 rfl dL_law_1413 ?_
      refine r_if_eq G (tgt := 1422) dL_law_1415 (by decide) (fun c => ?_) (fun c => ?_)
      · rw [if_pos c] at h
        refine r_lconst G (v := 0) (by decide) dL_law_1422 ?_
        refine r_lcmp G dL_law_1423 ?_
        refine r_if_eq G (tgt := 1429) dL_law_1424 (by decide) (fun c => ?_) (fun c => ?_)
        · rw [if_pos c] at h
          refine r_goto G (tgt := 2906) dL_law_1429 (by decide) ?_
          refine V.sub (lv' := [(0, .ref b), (1, .ref (ad 55)), (2, .ref (bd 67)), (3, .ref qo), (4, .int i)]) [0, 1, 2, 3, 4] rfl ?_
          have h := Option.some.inj h
          subst h
          exact V.widen (by first | exact Nat.le_refl _ | exact Nat.le_add_right _ _) (by first | exact Nat.le_refl _ | exact Nat.le_add_right _ _) hk
        · rw [if_neg c] at h
          refine r_iconst G (v := 0) (by decide) dL_law_1427 ?_
          cases h
      · rw [if_neg c] at h
        refine r_lconst G (v := 1) (by decide) dL_law_1418 ?_
        refine r_goto G (tgt := 1423) dL_law_1419 (by decide) ?_
        refine r_lcmp G dL_law_1423 ?_
        refine r_if_eq G (tgt := 1429) dL_law_1424 (by decide) (fun c => ?_) (fun c => ?_)
        · rw [if_pos c] at h
          refine r_goto G (tgt := 2906) dL_law_1429 (by decide) ?_
          refine V.sub (lv' := [(0, .ref b), (1, .ref (ad 55)), (2, .ref (bd 67)), (3, .ref qo), (4, .int i)]) [0, 1, 2, 3, 4] rfl ?_
          have h := Option.some.inj h
          subst h
          exact V.widen (by first | exact Nat.le_refl _ | exact Nat.le_add_right _ _) (by first | exact Nat.le_refl _ | exact Nat.le_add_right _ _) hk
        · rw [if_neg c] at h
          refine r_iconst G (v := 0) (by decide) dL_law_1427 ?_
          cases h
  · rw [if_neg c] at h
    refine r_iconst G (v := 0) (by decide) dL_law_1403 ?_
    cases h

theorem hdL_isSame : yL_isSame.cls ≠ "java/lang/invoke/MethodHandle" ∧ yL_isSame.cls ≠ "java/lang/invoke/VarHandle" ∧ (parseMethodDescriptor yL_isSame.desc).map (fun d => d.parameters.length) = some 4 := by decide +kernel
theorem hdX8_isSame : yX8_isSame.cls = RX8 ∧ yX8_isSame.cls ≠ "java/lang/invoke/MethodHandle" ∧ yX8_isSame.cls ≠ "java/lang/invoke/VarHandle" ∧ (parseMethodDescriptor yX8_isSame.desc).map (fun d => d.parameters.length) = some 2 := by decide +kernel
set_option maxHeartbeats 4000000 in
set_option maxRecDepth 100000 in
theorem wL_c17 {E : evT} {l : Launch} {D : va_G} {ad bd : Nat → Nat} {qo : Nat} {κ : Nat → ClassId} {kK kV : Nat → Nat} (hE : EvOk E) (hT : TOk E) (hfl : l.stackTraces = false) (hC : COk E) (hSt : SOk E kK kV) {Γ : cxT} (G : Cx (lW ad bd κ qo) D (tyA κ) E l Γ code RL wsL_law 9 room_1) {b L : Nat} {ys : Nat → Int32} (hX : va_X b L ys (xs Γ) (xH Γ)) (hbl : b < (xH Γ).size) (hbA : ¬ xA Γ b) {C S : Nat} (hcC : C + 8 ≤ room_1.cells) (hcS : S + 40 ≤ room_1.slots) (i : Int32) (s : lS) {o : lS} (hk : V (lW ad bd κ qo) D Γ o (C + 8) (S + 40) 2906 [(0, .ref b), (1, .ref (ad 55)), (2, .ref (bd 67)), (3, .ref qo), (4, .int i)] []) (h : fL_c17 L ys i s = some o) : V (lW ad bd κ qo) D Γ s C S 1432 [(0, .ref b), (1, .ref (ad 55)), (2, .ref (bd 67)), (3, .ref qo), (4, .int i)] [] := by
  rw [fL_c17] at h
  refine r_aload_n G 1 rfl rfl dL_law_1432 ?_
  refine r_aload_n G 0 rfl rfl dL_law_1433 ?_
  refine r_iload G 4 rfl dL_law_1434 ?_
  refine r_iconst G (v := 1) (by decide) dL_law_1436 ?_
  refine r_iadd G dL_law_1437 ?_
  obtain ⟨g1, h⟩ := og h
  refine r_sld G hX hbl hbA (vin_in g1) dL_law_1438 ?_
  refine r_aload_n G 0 rfl rfl dL_law_1439 ?_
  refine r_iload G 4 rfl dL_law_1440 ?_
  refine r_iconst G (v := 2) (by decide) dL_law_1442 ?_
  refine r_iadd G dL_law_1443 ?_
  obtain ⟨g2, h⟩ := og h
  refine r_sld G hX hbl hbA (vin_in g2) dL_law_1444 ?_
  refine r_aload_n G 3 rfl rfl dL_law_1445 ?_
  obtain ⟨o3, e3, h⟩ := ob h
  refine r_callSixH G [.ref (ad 55), .int (ys (i + 1).toNatClampNeg), .int (ys (i + 2).toNatClampNeg), .ref qo] (qL_isSame hE hT hfl hC (ys (i + 1).toNatClampNeg) (ys (i + 2).toNatClampNeg) _ e3) gL_law_L_isSame rfl hdL_isSame ⟨Nat.le_of_ble_eq_true rfl, Nat.le_of_ble_eq_true rfl⟩ (Nat.le_of_ble_eq_true rfl) rfl ⟨by first | exact hcC | exact Nat.le_trans (Nat.le_add_right _ 8) hcC, by first | exact hcS | exact Nat.le_trans (Nat.le_add_right _ 40) hcS⟩ rfl rfl dL_law_1446 (fun k9 st9 hp9 => ?_) (fun r3 s3 hp hn3 => ?_)
  · subst hp9
    try dsimp only [Sum.elim_inl] at h
    cases h
  subst hp
  try dsimp only [Sum.elim_inr] at h
  refine r_istore G (lv' := [(0, .ref b), (1, .ref (ad 55)), (2, .ref (bd 67)), (3, .ref qo), (4, .int i), (5, .int r3)]) [1, 2, 3, 4, 5, 0] rfl (by decide) dL_law_1449 ?_
  refine r_aload_n G 2 rfl rfl dL_law_1451 ?_
  refine r_aload_n G 0 rfl rfl dL_law_1452 ?_
  refine r_iload G 4 rfl dL_law_1453 ?_
  refine r_iconst G (v := 1) (by decide) dL_law_1455 ?_
  refine r_iadd G dL_law_1456 ?_
  obtain ⟨g4, h⟩ := og h
  refine r_sld G hX hbl hbA (vin_in g4) dL_law_1457 ?_
  refine r_aload_n G 0 rfl rfl dL_law_1458 ?_
  refine r_iload G 4 rfl dL_law_1459 ?_
  refine r_iconst G (v := 2) (by decide) dL_law_1461 ?_
  refine r_iadd G dL_law_1462 ?_
  obtain ⟨g5, h⟩ := og h
  refine r_sld G hX hbl hbA (vin_in g5) dL_law_1463 ?_
  obtain ⟨o6, e6, h⟩ := ob h
  refine e_callVi G (fun x9 : mS => (s3.1, x9, s3.2.2)) (fun x9 => lW_m ad bd κ qo _ x9 _) rfl [.int (ys (i + 1).toNatClampNeg), .int (ys (i + 2).toNatClampNeg)] (qX8_isSame hE (ys (i + 1).toNatClampNeg) (ys (i + 2).toNatClampNeg) _ e6) ⟨146, 8, _, _, rfl, (lw_MO ad bd κ qo _), rfl⟩ gL_law_X8_isSame rfl hdX8_isSame ⟨Nat.le_of_ble_eq_true rfl, Nat.le_of_ble_eq_true rfl⟩ (Nat.le_of_ble_eq_true rfl) rfl ⟨by first | exact hcC | exact Nat.le_trans (Nat.le_add_right _ 8) hcC, by first | exact hcS | exact Nat.le_trans (Nat.le_add_right _ 40) hcS⟩ rfl rfl dL_law_1464 (fun r6 s6 hp hn6 => ?_)
  subst hp
  try dsimp only at h
  refine r_istore G (lv' := [(0, .ref b), (1, .ref (ad 55)), (2, .ref (bd 67)), (3, .ref qo), (4, .int i), (5, .int r3), (6, .int r6)]) [1, 2, 3, 4, 5, 6, 0] rfl (by decide) dL_law_1467 ?_
  refine r_aload_n G 2 rfl rfl dL_law_1469 ?_
  refine e_callVi G (fun x9 : mS => (s3.1, x9, s3.2.2)) (fun x9 => lW_m ad bd κ qo _ x9 _) rfl [] (qX8_thrown hE _) ⟨146, 8, _, _, rfl, (lw_MO ad bd κ qo _), rfl⟩ gL_law_X8_thrown rfl hdX8_thrown ⟨Nat.le_of_ble_eq_true rfl, Nat.le_of_ble_eq_true rfl⟩ (Nat.le_of_ble_eq_true rfl) rfl ⟨by first | exact hcC | exact Nat.le_trans (Nat.le_add_right _ 8) hcC, by first | exact hcS | exact Nat.le_trans (Nat.le_add_right _ 40) hcS⟩ rfl rfl dL_law_1470 (fun r7 s7 hp hn7 => ?_)
  obtain ⟨rfl, hs⟩ := hp
  have hs := hs.symm
  subst hs
  refine r_iload G 5 rfl dL_law_1473 ?_
  refine r_icmp_eq G (tgt := 1480) dL_law_1475 (by decide) (fun c => ?_) (fun c => ?_)
  · rw [if_pos c] at h
    refine r_iload G 5 rfl dL_law_1480 ?_
    refine r_if_ne G (tgt := 1504) dL_law_1482 (by decide) (fun c => ?_) (fun c => ?_)
    · rw [if_neg c] at h
      refine r_goto G (tgt := 2906) dL_law_1504 (by decide) ?_
      refine V.sub (lv' := [(0, .ref b), (1, .ref (ad 55)), (2, .ref (bd 67)), (3, .ref qo), (4, .int i)]) [0, 1, 2, 3, 4] rfl ?_
      have h := Option.some.inj h
      subst h
      exact V.widen (by first | exact Nat.le_refl _ | exact Nat.le_add_right _ _) (by first | exact Nat.le_refl _ | exact Nat.le_add_right _ _) hk
    · rw [if_pos c] at h
      refine r_aload_n G 3 rfl rfl dL_law_1485 ?_
      refine r_iconst G (v := 0) (by decide) dL_law_1486 ?_
      refine r_outld G dL_law_1487 ?_
      refine r_iload G 6 rfl dL_law_1488 ?_
      refine r_if_eq G (tgt := 1497) dL_law_1490 (by decide) (fun c => ?_) (fun c => ?_)
      · rw [if_pos c] at h
        refine r_lconst G (v := 0) (by decide) dL_law_1497 ?_
        refine r_lcmp G dL_law_1498 ?_
        refine r_if_eq G (tgt := 1504) dL_law_1499 (by decide) (fun c => ?_) (fun c => ?_)
        · rw [if_pos c] at h
          refine r_goto G (tgt := 2906) dL_law_1504 (by decide) ?_
          refine V.sub (lv' := [(0, .ref b), (1, .ref (ad 55)), (2, .ref (bd 67)), (3, .ref qo), (4, .int i)]) [0, 1, 2, 3, 4] rfl ?_
          have h := Option.some.inj h
          subst h
          exact V.widen (by first | exact Nat.le_refl _ | exact Nat.le_add_right _ _) (by first | exact Nat.le_refl _ | exact Nat.le_add_right _ _) hk
        · rw [if_neg c] at h
          refine r_iconst G (v := 0) (by decide) dL_law_1502 ?_
          cases h
      · rw [if_neg c] at h
        refine r_lconst G (v := 1) (by decide) dL_law_1493 ?_
        refine r_goto G (tgt := 1498) dL_law_1494 (by decide) ?_
        refine r_lcmp G dL_law_1498 ?_
        refine r_if_eq G (tgt := 1504) dL_law_1499 (by decide) (fun c => ?_) (fun c => ?_)
        · rw [if_pos c] at h
          refine r_goto G (tgt := 2906) dL_law_1504 (by decide) ?_
          refine V.sub (lv' := [(0, .ref b), (1, .ref (ad 55)), (2, .ref (bd 67)), (3, .ref qo), (4, .int i)]) [0, 1, 2, 3, 4] rfl ?_
          have h := Option.some.inj h
          subst h
          exact V.widen (by first | exact Nat.le_refl _ | exact Nat.le_add_right _ _) (by first | exact Nat.le_refl _ | exact Nat.le_add_right _ _) hk
        · rw [if_neg c] at h
          refine r_iconst G (v := 0) (by decide) dL_law_1502 ?_
          cases h
  · rw [if_neg c] at h
    refine r_iconst G (v := 0) (by decide) dL_law_1478 ?_
    cases h

theorem hdL_vote : yL_vote.cls ≠ "java/lang/invoke/MethodHandle" ∧ yL_vote.cls ≠ "java/lang/invoke/VarHandle" ∧ (parseMethodDescriptor yL_vote.desc).map (fun d => d.parameters.length) = some 3 := by decide +kernel
theorem hdX8_vote : yX8_vote.cls = RX8 ∧ yX8_vote.cls ≠ "java/lang/invoke/MethodHandle" ∧ yX8_vote.cls ≠ "java/lang/invoke/VarHandle" ∧ (parseMethodDescriptor yX8_vote.desc).map (fun d => d.parameters.length) = some 1 := by decide +kernel
set_option maxHeartbeats 4000000 in
set_option maxRecDepth 100000 in
theorem wL_c18 {E : evT} {l : Launch} {D : va_G} {ad bd : Nat → Nat} {qo : Nat} {κ : Nat → ClassId} {kK kV : Nat → Nat} (hE : EvOk E) (hT : TOk E) (hfl : l.stackTraces = false) (hC : COk E) (hSt : SOk E kK kV) {Γ : cxT} (G : Cx (lW ad bd κ qo) D (tyA κ) E l Γ code RL wsL_law 9 room_1) {b L : Nat} {ys : Nat → Int32} (hX : va_X b L ys (xs Γ) (xH Γ)) (hbl : b < (xH Γ).size) (hbA : ¬ xA Γ b) {C S : Nat} (hcC : C + 8 ≤ room_1.cells) (hcS : S + 40 ≤ room_1.slots) (i : Int32) (s : lS) {o : lS} (hk : V (lW ad bd κ qo) D Γ o (C + 8) (S + 40) 2906 [(0, .ref b), (1, .ref (ad 55)), (2, .ref (bd 67)), (3, .ref qo), (4, .int i)] []) (h : fL_c18 L ys i s = some o) : V (lW ad bd κ qo) D Γ s C S 1507 [(0, .ref b), (1, .ref (ad 55)), (2, .ref (bd 67)), (3, .ref qo), (4, .int i)] [] := by
  rw [fL_c18] at h
  refine r_aload_n G 1 rfl rfl dL_law_1507 ?_
  refine r_aload_n G 0 rfl rfl dL_law_1508 ?_
  refine r_iload G 4 rfl dL_law_1509 ?_
  refine r_iconst G (v := 1) (by decide) dL_law_1511 ?_
  refine r_iadd G dL_law_1512 ?_
  obtain ⟨g1, h⟩ := og h
  refine r_sld G hX hbl hbA (vin_in g1) dL_law_1513 ?_
  refine r_aload_n G 3 rfl rfl dL_law_1514 ?_
  obtain ⟨o2, e2, h⟩ := ob h
  refine r_callSixH G [.ref (ad 55), .int (ys (i + 1).toNatClampNeg), .ref qo] (qL_vote hE hT hfl hC (ys (i + 1).toNatClampNeg) _ e2) gL_law_L_vote rfl hdL_vote ⟨Nat.le_of_ble_eq_true rfl, Nat.le_of_ble_eq_true rfl⟩ (Nat.le_of_ble_eq_true rfl) rfl ⟨by first | exact hcC | exact Nat.le_trans (Nat.le_add_right _ 8) hcC, by first | exact hcS | exact Nat.le_trans (Nat.le_add_right _ 40) hcS⟩ rfl rfl dL_law_1515 (fun k9 st9 hp9 => ?_) (fun r2 s2 hp hn2 => ?_)
  · subst hp9
    try dsimp only [Sum.elim_inl] at h
    cases h
  subst hp
  try dsimp only [Sum.elim_inr] at h
  refine r_istore G (lv' := [(0, .ref b), (1, .ref (ad 55)), (2, .ref (bd 67)), (3, .ref qo), (4, .int i), (5, .int r2)]) [1, 2, 3, 4, 5, 0] rfl (by decide) dL_law_1518 ?_
  refine r_aload_n G 2 rfl rfl dL_law_1520 ?_
  refine r_aload_n G 0 rfl rfl dL_law_1521 ?_
  refine r_iload G 4 rfl dL_law_1522 ?_
  refine r_iconst G (v := 1) (by decide) dL_law_1524 ?_
  refine r_iadd G dL_law_1525 ?_
  obtain ⟨g3, h⟩ := og h
  refine r_sld G hX hbl hbA (vin_in g3) dL_law_1526 ?_
  obtain ⟨o4, e4, h⟩ := ob h
  refine e_callVi G (fun x9 : mS => (s2.1, x9, s2.2.2)) (fun x9 => lW_m ad bd κ qo _ x9 _) rfl [.int (ys (i + 1).toNatClampNeg)] (qX8_vote hE (ys (i + 1).toNatClampNeg) _ e4) ⟨146, 8, _, _, rfl, (lw_MO ad bd κ qo _), rfl⟩ gL_law_X8_vote rfl hdX8_vote ⟨Nat.le_of_ble_eq_true rfl, Nat.le_of_ble_eq_true rfl⟩ (Nat.le_of_ble_eq_true rfl) rfl ⟨by first | exact hcC | exact Nat.le_trans (Nat.le_add_right _ 8) hcC, by first | exact hcS | exact Nat.le_trans (Nat.le_add_right _ 40) hcS⟩ rfl rfl dL_law_1527 (fun r4 s4 hp hn4 => ?_)
  subst hp
  try dsimp only at h
  refine r_istore G (lv' := [(0, .ref b), (1, .ref (ad 55)), (2, .ref (bd 67)), (3, .ref qo), (4, .int i), (5, .int r2), (6, .int r4)]) [1, 2, 3, 4, 5, 6, 0] rfl (by decide) dL_law_1530 ?_
  refine r_aload_n G 2 rfl rfl dL_law_1532 ?_
  refine e_callVi G (fun x9 : mS => (s2.1, x9, s2.2.2)) (fun x9 => lW_m ad bd κ qo _ x9 _) rfl [] (qX8_thrown hE _) ⟨146, 8, _, _, rfl, (lw_MO ad bd κ qo _), rfl⟩ gL_law_X8_thrown rfl hdX8_thrown ⟨Nat.le_of_ble_eq_true rfl, Nat.le_of_ble_eq_true rfl⟩ (Nat.le_of_ble_eq_true rfl) rfl ⟨by first | exact hcC | exact Nat.le_trans (Nat.le_add_right _ 8) hcC, by first | exact hcS | exact Nat.le_trans (Nat.le_add_right _ 40) hcS⟩ rfl rfl dL_law_1533 (fun r5 s5 hp hn5 => ?_)
  obtain ⟨rfl, hs⟩ := hp
  have hs := hs.symm
  subst hs
  refine r_iload G 5 rfl dL_law_1536 ?_
  refine r_icmp_eq G (tgt := 1543) dL_law_1538 (by decide) (fun c => ?_) (fun c => ?_)
  · rw [if_pos c] at h
    refine r_iload G 5 rfl dL_law_1543 ?_
    refine r_if_ne G (tgt := 1560) dL_law_1545 (by decide) (fun c => ?_) (fun c => ?_)
    · rw [if_neg c] at h
      refine r_goto G (tgt := 2906) dL_law_1560 (by decide) ?_
      refine V.sub (lv' := [(0, .ref b), (1, .ref (ad 55)), (2, .ref (bd 67)), (3, .ref qo), (4, .int i)]) [0, 1, 2, 3, 4] rfl ?_
      have h := Option.some.inj h
      subst h
      exact V.widen (by first | exact Nat.le_refl _ | exact Nat.le_add_right _ _) (by first | exact Nat.le_refl _ | exact Nat.le_add_right _ _) hk
    · rw [if_pos c] at h
      refine r_aload_n G 3 rfl rfl dL_law_1548 ?_
      refine r_iconst G (v := 0) (by decide) dL_law_1549 ?_
      refine r_outld G dL_law_1550 ?_
      refine r_iload G 6 rfl dL_law_1551 ?_
      refine r_i2l G dL_law_1553 ?_
      refine r_lcmp G dL_law_1554 ?_
      refine r_if_eq G (tgt := 1560) dL_law_1555 (by decide) (fun c => ?_) (fun c => ?_)
      · rw [if_pos c] at h
        refine r_goto G (tgt := 2906) dL_law_1560 (by decide) ?_
        refine V.sub (lv' := [(0, .ref b), (1, .ref (ad 55)), (2, .ref (bd 67)), (3, .ref qo), (4, .int i)]) [0, 1, 2, 3, 4] rfl ?_
        have h := Option.some.inj h
        subst h
        exact V.widen (by first | exact Nat.le_refl _ | exact Nat.le_add_right _ _) (by first | exact Nat.le_refl _ | exact Nat.le_add_right _ _) hk
      · rw [if_neg c] at h
        refine r_iconst G (v := 0) (by decide) dL_law_1558 ?_
        cases h
  · rw [if_neg c] at h
    refine r_iconst G (v := 0) (by decide) dL_law_1541 ?_
    cases h

theorem hdL_elect : yL_elect.cls ≠ "java/lang/invoke/MethodHandle" ∧ yL_elect.cls ≠ "java/lang/invoke/VarHandle" ∧ (parseMethodDescriptor yL_elect.desc).map (fun d => d.parameters.length) = some 4 := by decide +kernel
theorem hdX8_elect : yX8_elect.cls = RX8 ∧ yX8_elect.cls ≠ "java/lang/invoke/MethodHandle" ∧ yX8_elect.cls ≠ "java/lang/invoke/VarHandle" ∧ (parseMethodDescriptor yX8_elect.desc).map (fun d => d.parameters.length) = some 2 := by decide +kernel
set_option maxHeartbeats 4000000 in
set_option maxRecDepth 100000 in
theorem wL_c19 {E : evT} {l : Launch} {D : va_G} {ad bd : Nat → Nat} {qo : Nat} {κ : Nat → ClassId} {kK kV : Nat → Nat} (hE : EvOk E) (hT : TOk E) (hfl : l.stackTraces = false) (hC : COk E) (hSt : SOk E kK kV) {Γ : cxT} (G : Cx (lW ad bd κ qo) D (tyA κ) E l Γ code RL wsL_law 9 room_1) {b L : Nat} {ys : Nat → Int32} (hX : va_X b L ys (xs Γ) (xH Γ)) (hbl : b < (xH Γ).size) (hbA : ¬ xA Γ b) {C S : Nat} (hcC : C + 8 ≤ room_1.cells) (hcS : S + 40 ≤ room_1.slots) (i : Int32) (s : lS) {o : lS} (hk : V (lW ad bd κ qo) D Γ o (C + 8) (S + 40) 2906 [(0, .ref b), (1, .ref (ad 55)), (2, .ref (bd 67)), (3, .ref qo), (4, .int i)] []) (h : fL_c19 L ys i s = some o) : V (lW ad bd κ qo) D Γ s C S 1563 [(0, .ref b), (1, .ref (ad 55)), (2, .ref (bd 67)), (3, .ref qo), (4, .int i)] [] := by
  rw [fL_c19] at h
  refine r_aload_n G 1 rfl rfl dL_law_1563 ?_
  refine r_aload_n G 0 rfl rfl dL_law_1564 ?_
  refine r_iload G 4 rfl dL_law_1565 ?_
  refine r_iconst G (v := 1) (by decide) dL_law_1567 ?_
  refine r_iadd G dL_law_1568 ?_
  obtain ⟨g1, h⟩ := og h
  refine r_sld G hX hbl hbA (vin_in g1) dL_law_1569 ?_
  refine r_aload_n G 0 rfl rfl dL_law_1570 ?_
  refine r_iload G 4 rfl dL_law_1571 ?_
  refine r_iconst G (v := 2) (by decide) dL_law_1573 ?_
  refine r_iadd G dL_law_1574 ?_
  obtain ⟨g2, h⟩ := og h
  refine r_sld G hX hbl hbA (vin_in g2) dL_law_1575 ?_
  refine r_aload_n G 3 rfl rfl dL_law_1576 ?_
  obtain ⟨o3, e3, h⟩ := ob h
  refine r_callSixH G [.ref (ad 55), .int (ys (i + 1).toNatClampNeg), .int (ys (i + 2).toNatClampNeg), .ref qo] (qL_elect hE hT hfl hC (ys (i + 1).toNatClampNeg) (ys (i + 2).toNatClampNeg) _ e3) gL_law_L_elect rfl hdL_elect ⟨Nat.le_of_ble_eq_true rfl, Nat.le_of_ble_eq_true rfl⟩ (Nat.le_of_ble_eq_true rfl) rfl ⟨by first | exact hcC | exact Nat.le_trans (Nat.le_add_right _ 8) hcC, by first | exact hcS | exact Nat.le_trans (Nat.le_add_right _ 40) hcS⟩ rfl rfl dL_law_1577 (fun k9 st9 hp9 => ?_) (fun r3 s3 hp hn3 => ?_)
  · subst hp9
    try dsimp only [Sum.elim_inl] at h
    cases h
  subst hp
  try dsimp only [Sum.elim_inr] at h
  refine r_istore G (lv' := [(0, .ref b), (1, .ref (ad 55)), (2, .ref (bd 67)), (3, .ref qo), (4, .int i), (5, .int r3)]) [1, 2, 3, 4, 5, 0] rfl (by decide) dL_law_1580 ?_
  refine r_aload_n G 2 rfl rfl dL_law_1582 ?_
  refine r_aload_n G 0 rfl rfl dL_law_1583 ?_
  refine r_iload G 4 rfl dL_law_1584 ?_
  refine r_iconst G (v := 1) (by decide) dL_law_1586 ?_
  refine r_iadd G dL_law_1587 ?_
  obtain ⟨g4, h⟩ := og h
  refine r_sld G hX hbl hbA (vin_in g4) dL_law_1588 ?_
  refine r_aload_n G 0 rfl rfl dL_law_1589 ?_
  refine r_iload G 4 rfl dL_law_1590 ?_
  refine r_iconst G (v := 2) (by decide) dL_law_1592 ?_
  refine r_iadd G dL_law_1593 ?_
  obtain ⟨g5, h⟩ := og h
  refine r_sld G hX hbl hbA (vin_in g5) dL_law_1594 ?_
  obtain ⟨o6, e6, h⟩ := ob h
  refine e_callVi G (fun x9 : mS => (s3.1, x9, s3.2.2)) (fun x9 => lW_m ad bd κ qo _ x9 _) rfl [.int (ys (i + 1).toNatClampNeg), .int (ys (i + 2).toNatClampNeg)] (qX8_elect hE (ys (i + 1).toNatClampNeg) (ys (i + 2).toNatClampNeg) _ e6) ⟨146, 8, _, _, rfl, (lw_MO ad bd κ qo _), rfl⟩ gL_law_X8_elect rfl hdX8_elect ⟨Nat.le_of_ble_eq_true rfl, Nat.le_of_ble_eq_true rfl⟩ (Nat.le_of_ble_eq_true rfl) rfl ⟨by first | exact hcC | exact Nat.le_trans (Nat.le_add_right _ 8) hcC, by first | exact hcS | exact Nat.le_trans (Nat.le_add_right _ 40) hcS⟩ rfl rfl dL_law_1595 (fun r6 s6 hp hn6 => ?_)
  subst hp
  try dsimp only at h
  refine r_istore G (lv' := [(0, .ref b), (1, .ref (ad 55)), (2, .ref (bd 67)), (3, .ref qo), (4, .int i), (5, .int r3), (6, .int r6)]) [1, 2, 3, 4, 5, 6, 0] rfl (by decide) dL_law_1598 ?_
  refine r_aload_n G 2 rfl rfl dL_law_1600 ?_
  refine e_callVi G (fun x9 : mS => (s3.1, x9, s3.2.2)) (fun x9 => lW_m ad bd κ qo _ x9 _) rfl [] (qX8_thrown hE _) ⟨146, 8, _, _, rfl, (lw_MO ad bd κ qo _), rfl⟩ gL_law_X8_thrown rfl hdX8_thrown ⟨Nat.le_of_ble_eq_true rfl, Nat.le_of_ble_eq_true rfl⟩ (Nat.le_of_ble_eq_true rfl) rfl ⟨by first | exact hcC | exact Nat.le_trans (Nat.le_add_right _ 8) hcC, by first | exact hcS | exact Nat.le_trans (Nat.le_add_right _ 40) hcS⟩ rfl rfl dL_law_1601 (fun r7 s7 hp hn7 => ?_)
  obtain ⟨rfl, hs⟩ := hp
  have hs := hs.symm
  subst hs
  refine r_iload G 5 rfl dL_law_1604 ?_
  refine r_icmp_eq G (tgt := 1611) dL_law_1606 (by decide) (fun c => ?_) (fun c => ?_)
  · rw [if_pos c] at h
    refine r_iload G 5 rfl dL_law_1611 ?_
    refine r_if_ne G (tgt := 1628) dL_law_1613 (by decide) (fun c => ?_) (fun c => ?_)
    · rw [if_neg c] at h
      refine r_goto G (tgt := 2906) dL_law_1628 (by decide) ?_
      refine V.sub (lv' := [(0, .ref b), (1, .ref (ad 55)), (2, .ref (bd 67)), (3, .ref qo), (4, .int i)]) [0, 1, 2, 3, 4] rfl ?_
      have h := Option.some.inj h
      subst h
      exact V.widen (by first | exact Nat.le_refl _ | exact Nat.le_add_right _ _) (by first | exact Nat.le_refl _ | exact Nat.le_add_right _ _) hk
    · rw [if_pos c] at h
      refine r_aload_n G 3 rfl rfl dL_law_1616 ?_
      refine r_iconst G (v := 0) (by decide) dL_law_1617 ?_
      refine r_outld G dL_law_1618 ?_
      refine r_iload G 6 rfl dL_law_1619 ?_
      refine r_i2l G dL_law_1621 ?_
      refine r_lcmp G dL_law_1622 ?_
      refine r_if_eq G (tgt := 1628) dL_law_1623 (by decide) (fun c => ?_) (fun c => ?_)
      · rw [if_pos c] at h
        refine r_goto G (tgt := 2906) dL_law_1628 (by decide) ?_
        refine V.sub (lv' := [(0, .ref b), (1, .ref (ad 55)), (2, .ref (bd 67)), (3, .ref qo), (4, .int i)]) [0, 1, 2, 3, 4] rfl ?_
        have h := Option.some.inj h
        subst h
        exact V.widen (by first | exact Nat.le_refl _ | exact Nat.le_add_right _ _) (by first | exact Nat.le_refl _ | exact Nat.le_add_right _ _) hk
      · rw [if_neg c] at h
        refine r_iconst G (v := 0) (by decide) dL_law_1626 ?_
        cases h
  · rw [if_neg c] at h
    refine r_iconst G (v := 0) (by decide) dL_law_1609 ?_
    cases h

theorem hdL_keep : yL_keep.cls ≠ "java/lang/invoke/MethodHandle" ∧ yL_keep.cls ≠ "java/lang/invoke/VarHandle" ∧ (parseMethodDescriptor yL_keep.desc).map (fun d => d.parameters.length) = some 3 := by decide +kernel
theorem hdX8_keep : yX8_keep.cls = RX8 ∧ yX8_keep.cls ≠ "java/lang/invoke/MethodHandle" ∧ yX8_keep.cls ≠ "java/lang/invoke/VarHandle" ∧ (parseMethodDescriptor yX8_keep.desc).map (fun d => d.parameters.length) = some 1 := by decide +kernel
set_option maxHeartbeats 4000000 in
set_option maxRecDepth 100000 in
theorem wL_c20 {E : evT} {l : Launch} {D : va_G} {ad bd : Nat → Nat} {qo : Nat} {κ : Nat → ClassId} {kK kV : Nat → Nat} (hE : EvOk E) (hT : TOk E) (hfl : l.stackTraces = false) (hC : COk E) (hSt : SOk E kK kV) {Γ : cxT} (G : Cx (lW ad bd κ qo) D (tyA κ) E l Γ code RL wsL_law 9 room_1) {b L : Nat} {ys : Nat → Int32} (hX : va_X b L ys (xs Γ) (xH Γ)) (hbl : b < (xH Γ).size) (hbA : ¬ xA Γ b) {C S : Nat} (hcC : C + 8 ≤ room_1.cells) (hcS : S + 40 ≤ room_1.slots) (i : Int32) (s : lS) {o : lS} (hk : V (lW ad bd κ qo) D Γ o (C + 8) (S + 40) 2906 [(0, .ref b), (1, .ref (ad 55)), (2, .ref (bd 67)), (3, .ref qo), (4, .int i)] []) (h : fL_c20 L ys i s = some o) : V (lW ad bd κ qo) D Γ s C S 1631 [(0, .ref b), (1, .ref (ad 55)), (2, .ref (bd 67)), (3, .ref qo), (4, .int i)] [] := by
  rw [fL_c20] at h
  refine r_aload_n G 1 rfl rfl dL_law_1631 ?_
  refine r_aload_n G 0 rfl rfl dL_law_1632 ?_
  refine r_iload G 4 rfl dL_law_1633 ?_
  refine r_iconst G (v := 1) (by decide) dL_law_1635 ?_
  refine r_iadd G dL_law_1636 ?_
  obtain ⟨g1, h⟩ := og h
  refine r_sld G hX hbl hbA (vin_in g1) dL_law_1637 ?_
  refine r_aload_n G 3 rfl rfl dL_law_1638 ?_
  obtain ⟨o2, e2, h⟩ := ob h
  refine r_callSixH G [.ref (ad 55), .int (ys (i + 1).toNatClampNeg), .ref qo] (qL_keep hE hT hfl hC (ys (i + 1).toNatClampNeg) _ e2) gL_law_L_keep rfl hdL_keep ⟨Nat.le_of_ble_eq_true rfl, Nat.le_of_ble_eq_true rfl⟩ (Nat.le_of_ble_eq_true rfl) rfl ⟨by first | exact hcC | exact Nat.le_trans (Nat.le_add_right _ 8) hcC, by first | exact hcS | exact Nat.le_trans (Nat.le_add_right _ 40) hcS⟩ rfl rfl dL_law_1639 (fun k9 st9 hp9 => ?_) (fun r2 s2 hp hn2 => ?_)
  · subst hp9
    try dsimp only [Sum.elim_inl] at h
    cases h
  subst hp
  try dsimp only [Sum.elim_inr] at h
  refine r_istore G (lv' := [(0, .ref b), (1, .ref (ad 55)), (2, .ref (bd 67)), (3, .ref qo), (4, .int i), (5, .int r2)]) [1, 2, 3, 4, 5, 0] rfl (by decide) dL_law_1642 ?_
  refine r_aload_n G 2 rfl rfl dL_law_1644 ?_
  refine r_aload_n G 0 rfl rfl dL_law_1645 ?_
  refine r_iload G 4 rfl dL_law_1646 ?_
  refine r_iconst G (v := 1) (by decide) dL_law_1648 ?_
  refine r_iadd G dL_law_1649 ?_
  obtain ⟨g3, h⟩ := og h
  refine r_sld G hX hbl hbA (vin_in g3) dL_law_1650 ?_
  obtain ⟨o4, e4, h⟩ := ob h
  refine e_callVi G (fun x9 : mS => (s2.1, x9, s2.2.2)) (fun x9 => lW_m ad bd κ qo _ x9 _) rfl [.int (ys (i + 1).toNatClampNeg)] (qX8_keep hE (ys (i + 1).toNatClampNeg) _ e4) ⟨146, 8, _, _, rfl, (lw_MO ad bd κ qo _), rfl⟩ gL_law_X8_keep rfl hdX8_keep ⟨Nat.le_of_ble_eq_true rfl, Nat.le_of_ble_eq_true rfl⟩ (Nat.le_of_ble_eq_true rfl) rfl ⟨by first | exact hcC | exact Nat.le_trans (Nat.le_add_right _ 8) hcC, by first | exact hcS | exact Nat.le_trans (Nat.le_add_right _ 40) hcS⟩ rfl rfl dL_law_1651 (fun r4 s4 hp hn4 => ?_)
  subst hp
  try dsimp only at h
  refine r_istore G (lv' := [(0, .ref b), (1, .ref (ad 55)), (2, .ref (bd 67)), (3, .ref qo), (4, .int i), (5, .int r2), (6, .int r4)]) [1, 2, 3, 4, 5, 6, 0] rfl (by decide) dL_law_1654 ?_
  refine r_aload_n G 2 rfl rfl dL_law_1656 ?_
  refine e_callVi G (fun x9 : mS => (s2.1, x9, s2.2.2)) (fun x9 => lW_m ad bd κ qo _ x9 _) rfl [] (qX8_thrown hE _) ⟨146, 8, _, _, rfl, (lw_MO ad bd κ qo _), rfl⟩ gL_law_X8_thrown rfl hdX8_thrown ⟨Nat.le_of_ble_eq_true rfl, Nat.le_of_ble_eq_true rfl⟩ (Nat.le_of_ble_eq_true rfl) rfl ⟨by first | exact hcC | exact Nat.le_trans (Nat.le_add_right _ 8) hcC, by first | exact hcS | exact Nat.le_trans (Nat.le_add_right _ 40) hcS⟩ rfl rfl dL_law_1657 (fun r5 s5 hp hn5 => ?_)
  obtain ⟨rfl, hs⟩ := hp
  have hs := hs.symm
  subst hs
  refine r_iload G 5 rfl dL_law_1660 ?_
  refine r_icmp_eq G (tgt := 1667) dL_law_1662 (by decide) (fun c => ?_) (fun c => ?_)
  · rw [if_pos c] at h
    refine r_iload G 5 rfl dL_law_1667 ?_
    refine r_if_ne G (tgt := 1691) dL_law_1669 (by decide) (fun c => ?_) (fun c => ?_)
    · rw [if_neg c] at h
      refine r_goto G (tgt := 2906) dL_law_1691 (by decide) ?_
      refine V.sub (lv' := [(0, .ref b), (1, .ref (ad 55)), (2, .ref (bd 67)), (3, .ref qo), (4, .int i)]) [0, 1, 2, 3, 4] rfl ?_
      have h := Option.some.inj h
      subst h
      exact V.widen (by first | exact Nat.le_refl _ | exact Nat.le_add_right _ _) (by first | exact Nat.le_refl _ | exact Nat.le_add_right _ _) hk
    · rw [if_pos c] at h
      refine r_aload_n G 3 rfl rfl dL_law_1672 ?_
      refine r_iconst G (v := 0) (by decide) dL_law_1673 ?_
      refine r_outld G dL_law_1674 ?_
      refine r_iload G 6 rfl dL_law_1675 ?_
      refine r_if_eq G (tgt := 1684) dL_law_1677 (by decide) (fun c => ?_) (fun c => ?_)
      · rw [if_pos c] at h
        refine r_lconst G (v := 0) (by decide) dL_law_1684 ?_
        refine r_lcmp G dL_law_1685 ?_
        refine r_if_eq G (tgt := 1691) dL_law_1686 (by decide) (fun c => ?_) (fun c => ?_)
        · rw [if_pos c] at h
          refine r_goto G (tgt := 2906) dL_law_1691 (by decide) ?_
          refine V.sub (lv' := [(0, .ref b), (1, .ref (ad 55)), (2, .ref (bd 67)), (3, .ref qo), (4, .int i)]) [0, 1, 2, 3, 4] rfl ?_
          have h := Option.some.inj h
          subst h
          exact V.widen (by first | exact Nat.le_refl _ | exact Nat.le_add_right _ _) (by first | exact Nat.le_refl _ | exact Nat.le_add_right _ _) hk
        · rw [if_neg c] at h
          refine r_iconst G (v := 0) (by decide) dL_law_1689 ?_
          cases h
      · rw [if_neg c] at h
        refine r_lconst G (v := 1) (by decide) dL_law_1680 ?_
        refine r_goto G (tgt := 1685) dL_law_1681 (by decide) ?_
        refine r_lcmp G dL_law_1685 ?_
        refine r_if_eq G (tgt := 1691) dL_law_1686 (by decide) (fun c => ?_) (fun c => ?_)
        · rw [if_pos c] at h
          refine r_goto G (tgt := 2906) dL_law_1691 (by decide) ?_
          refine V.sub (lv' := [(0, .ref b), (1, .ref (ad 55)), (2, .ref (bd 67)), (3, .ref qo), (4, .int i)]) [0, 1, 2, 3, 4] rfl ?_
          have h := Option.some.inj h
          subst h
          exact V.widen (by first | exact Nat.le_refl _ | exact Nat.le_add_right _ _) (by first | exact Nat.le_refl _ | exact Nat.le_add_right _ _) hk
        · rw [if_neg c] at h
          refine r_iconst G (v := 0) (by decide) dL_law_1689 ?_
          cases h
  · rw [if_neg c] at h
    refine r_iconst G (v := 0) (by decide) dL_law_1665 ?_
    cases h

theorem hdL_drop : yL_drop.cls ≠ "java/lang/invoke/MethodHandle" ∧ yL_drop.cls ≠ "java/lang/invoke/VarHandle" ∧ (parseMethodDescriptor yL_drop.desc).map (fun d => d.parameters.length) = some 3 := by decide +kernel
theorem hdX8_drop : yX8_drop.cls = RX8 ∧ yX8_drop.cls ≠ "java/lang/invoke/MethodHandle" ∧ yX8_drop.cls ≠ "java/lang/invoke/VarHandle" ∧ (parseMethodDescriptor yX8_drop.desc).map (fun d => d.parameters.length) = some 1 := by decide +kernel
set_option maxHeartbeats 4000000 in
set_option maxRecDepth 100000 in
theorem wL_c21 {E : evT} {l : Launch} {D : va_G} {ad bd : Nat → Nat} {qo : Nat} {κ : Nat → ClassId} {kK kV : Nat → Nat} (hE : EvOk E) (hT : TOk E) (hfl : l.stackTraces = false) (hC : COk E) (hSt : SOk E kK kV) {Γ : cxT} (G : Cx (lW ad bd κ qo) D (tyA κ) E l Γ code RL wsL_law 9 room_1) {b L : Nat} {ys : Nat → Int32} (hX : va_X b L ys (xs Γ) (xH Γ)) (hbl : b < (xH Γ).size) (hbA : ¬ xA Γ b) {C S : Nat} (hcC : C + 8 ≤ room_1.cells) (hcS : S + 40 ≤ room_1.slots) (i : Int32) (s : lS) {o : lS} (hk : V (lW ad bd κ qo) D Γ o (C + 8) (S + 40) 2906 [(0, .ref b), (1, .ref (ad 55)), (2, .ref (bd 67)), (3, .ref qo), (4, .int i)] []) (h : fL_c21 L ys i s = some o) : V (lW ad bd κ qo) D Γ s C S 1694 [(0, .ref b), (1, .ref (ad 55)), (2, .ref (bd 67)), (3, .ref qo), (4, .int i)] [] := by
  rw [fL_c21] at h
  refine r_aload_n G 1 rfl rfl dL_law_1694 ?_
  refine r_aload_n G 0 rfl rfl dL_law_1695 ?_
  refine r_iload G 4 rfl dL_law_1696 ?_
  refine r_iconst G (v := 1) (by decide) dL_law_1698 ?_
  refine r_iadd G dL_law_1699 ?_
  obtain ⟨g1, h⟩ := og h
  refine r_sld G hX hbl hbA (vin_in g1) dL_law_1700 ?_
  refine r_aload_n G 3 rfl rfl dL_law_1701 ?_
  obtain ⟨o2, e2, h⟩ := ob h
  refine r_callSixH G [.ref (ad 55), .int (ys (i + 1).toNatClampNeg), .ref qo] (qL_drop hE hT hfl hC (ys (i + 1).toNatClampNeg) _ e2) gL_law_L_drop rfl hdL_drop ⟨Nat.le_of_ble_eq_true rfl, Nat.le_of_ble_eq_true rfl⟩ (Nat.le_of_ble_eq_true rfl) rfl ⟨by first | exact hcC | exact Nat.le_trans (Nat.le_add_right _ 8) hcC, by first | exact hcS | exact Nat.le_trans (Nat.le_add_right _ 40) hcS⟩ rfl rfl dL_law_1702 (fun k9 st9 hp9 => ?_) (fun r2 s2 hp hn2 => ?_)
  · subst hp9
    try dsimp only [Sum.elim_inl] at h
    cases h
  subst hp
  try dsimp only [Sum.elim_inr] at h
  refine r_istore G (lv' := [(0, .ref b), (1, .ref (ad 55)), (2, .ref (bd 67)), (3, .ref qo), (4, .int i), (5, .int r2)]) [1, 2, 3, 4, 5, 0] rfl (by decide) dL_law_1705 ?_
  refine r_aload_n G 2 rfl rfl dL_law_1707 ?_
  refine r_aload_n G 0 rfl rfl dL_law_1708 ?_
  refine r_iload G 4 rfl dL_law_1709 ?_
  refine r_iconst G (v := 1) (by decide) dL_law_1711 ?_
  refine r_iadd G dL_law_1712 ?_
  obtain ⟨g3, h⟩ := og h
  refine r_sld G hX hbl hbA (vin_in g3) dL_law_1713 ?_
  obtain ⟨o4, e4, h⟩ := ob h
  refine e_callVi G (fun x9 : mS => (s2.1, x9, s2.2.2)) (fun x9 => lW_m ad bd κ qo _ x9 _) rfl [.int (ys (i + 1).toNatClampNeg)] (qX8_drop hE (ys (i + 1).toNatClampNeg) _ e4) ⟨146, 8, _, _, rfl, (lw_MO ad bd κ qo _), rfl⟩ gL_law_X8_drop rfl hdX8_drop ⟨Nat.le_of_ble_eq_true rfl, Nat.le_of_ble_eq_true rfl⟩ (Nat.le_of_ble_eq_true rfl) rfl ⟨by first | exact hcC | exact Nat.le_trans (Nat.le_add_right _ 8) hcC, by first | exact hcS | exact Nat.le_trans (Nat.le_add_right _ 40) hcS⟩ rfl rfl dL_law_1714 (fun r4 s4 hp hn4 => ?_)
  subst hp
  try dsimp only at h
  refine r_istore G (lv' := [(0, .ref b), (1, .ref (ad 55)), (2, .ref (bd 67)), (3, .ref qo), (4, .int i), (5, .int r2), (6, .int r4)]) [1, 2, 3, 4, 5, 6, 0] rfl (by decide) dL_law_1717 ?_
  refine r_aload_n G 2 rfl rfl dL_law_1719 ?_
  refine e_callVi G (fun x9 : mS => (s2.1, x9, s2.2.2)) (fun x9 => lW_m ad bd κ qo _ x9 _) rfl [] (qX8_thrown hE _) ⟨146, 8, _, _, rfl, (lw_MO ad bd κ qo _), rfl⟩ gL_law_X8_thrown rfl hdX8_thrown ⟨Nat.le_of_ble_eq_true rfl, Nat.le_of_ble_eq_true rfl⟩ (Nat.le_of_ble_eq_true rfl) rfl ⟨by first | exact hcC | exact Nat.le_trans (Nat.le_add_right _ 8) hcC, by first | exact hcS | exact Nat.le_trans (Nat.le_add_right _ 40) hcS⟩ rfl rfl dL_law_1720 (fun r5 s5 hp hn5 => ?_)
  obtain ⟨rfl, hs⟩ := hp
  have hs := hs.symm
  subst hs
  refine r_iload G 5 rfl dL_law_1723 ?_
  refine r_icmp_eq G (tgt := 1730) dL_law_1725 (by decide) (fun c => ?_) (fun c => ?_)
  · rw [if_pos c] at h
    refine r_iload G 5 rfl dL_law_1730 ?_
    refine r_if_ne G (tgt := 1754) dL_law_1732 (by decide) (fun c => ?_) (fun c => ?_)
    · rw [if_neg c] at h
      refine r_goto G (tgt := 2906) dL_law_1754 (by decide) ?_
      refine V.sub (lv' := [(0, .ref b), (1, .ref (ad 55)), (2, .ref (bd 67)), (3, .ref qo), (4, .int i)]) [0, 1, 2, 3, 4] rfl ?_
      have h := Option.some.inj h
      subst h
      exact V.widen (by first | exact Nat.le_refl _ | exact Nat.le_add_right _ _) (by first | exact Nat.le_refl _ | exact Nat.le_add_right _ _) hk
    · rw [if_pos c] at h
      refine r_aload_n G 3 rfl rfl dL_law_1735 ?_
      refine r_iconst G (v := 0) (by decide) dL_law_1736 ?_
      refine r_outld G dL_law_1737 ?_
      refine r_iload G 6 rfl dL_law_1738 ?_
      refine r_if_eq G (tgt := 1747) dL_law_1740 (by decide) (fun c => ?_) (fun c => ?_)
      · rw [if_pos c] at h
        refine r_lconst G (v := 0) (by decide) dL_law_1747 ?_
        refine r_lcmp G dL_law_1748 ?_
        refine r_if_eq G (tgt := 1754) dL_law_1749 (by decide) (fun c => ?_) (fun c => ?_)
        · rw [if_pos c] at h
          refine r_goto G (tgt := 2906) dL_law_1754 (by decide) ?_
          refine V.sub (lv' := [(0, .ref b), (1, .ref (ad 55)), (2, .ref (bd 67)), (3, .ref qo), (4, .int i)]) [0, 1, 2, 3, 4] rfl ?_
          have h := Option.some.inj h
          subst h
          exact V.widen (by first | exact Nat.le_refl _ | exact Nat.le_add_right _ _) (by first | exact Nat.le_refl _ | exact Nat.le_add_right _ _) hk
        · rw [if_neg c] at h
          refine r_iconst G (v := 0) (by decide) dL_law_1752 ?_
          cases h
      · rw [if_neg c] at h
        refine r_lconst G (v := 1) (by decide) dL_law_1743 ?_
        refine r_goto G (tgt := 1748) dL_law_1744 (by decide) ?_
        refine r_lcmp G dL_law_1748 ?_
        refine r_if_eq G (tgt := 1754) dL_law_1749 (by decide) (fun c => ?_) (fun c => ?_)
        · rw [if_pos c] at h
          refine r_goto G (tgt := 2906) dL_law_1754 (by decide) ?_
          refine V.sub (lv' := [(0, .ref b), (1, .ref (ad 55)), (2, .ref (bd 67)), (3, .ref qo), (4, .int i)]) [0, 1, 2, 3, 4] rfl ?_
          have h := Option.some.inj h
          subst h
          exact V.widen (by first | exact Nat.le_refl _ | exact Nat.le_add_right _ _) (by first | exact Nat.le_refl _ | exact Nat.le_add_right _ _) hk
        · rw [if_neg c] at h
          refine r_iconst G (v := 0) (by decide) dL_law_1752 ?_
          cases h
  · rw [if_neg c] at h
    refine r_iconst G (v := 0) (by decide) dL_law_1728 ?_
    cases h

theorem hdL_isKept : yL_isKept.cls ≠ "java/lang/invoke/MethodHandle" ∧ yL_isKept.cls ≠ "java/lang/invoke/VarHandle" ∧ (parseMethodDescriptor yL_isKept.desc).map (fun d => d.parameters.length) = some 3 := by decide +kernel
theorem hdX8_isKept : yX8_isKept.cls = RX8 ∧ yX8_isKept.cls ≠ "java/lang/invoke/MethodHandle" ∧ yX8_isKept.cls ≠ "java/lang/invoke/VarHandle" ∧ (parseMethodDescriptor yX8_isKept.desc).map (fun d => d.parameters.length) = some 1 := by decide +kernel
set_option maxHeartbeats 4000000 in
set_option maxRecDepth 100000 in
theorem wL_c22 {E : evT} {l : Launch} {D : va_G} {ad bd : Nat → Nat} {qo : Nat} {κ : Nat → ClassId} {kK kV : Nat → Nat} (hE : EvOk E) (hT : TOk E) (hfl : l.stackTraces = false) (hC : COk E) (hSt : SOk E kK kV) {Γ : cxT} (G : Cx (lW ad bd κ qo) D (tyA κ) E l Γ code RL wsL_law 9 room_1) {b L : Nat} {ys : Nat → Int32} (hX : va_X b L ys (xs Γ) (xH Γ)) (hbl : b < (xH Γ).size) (hbA : ¬ xA Γ b) {C S : Nat} (hcC : C + 8 ≤ room_1.cells) (hcS : S + 40 ≤ room_1.slots) (i : Int32) (s : lS) {o : lS} (hk : V (lW ad bd κ qo) D Γ o (C + 8) (S + 40) 2906 [(0, .ref b), (1, .ref (ad 55)), (2, .ref (bd 67)), (3, .ref qo), (4, .int i)] []) (h : fL_c22 L ys i s = some o) : V (lW ad bd κ qo) D Γ s C S 1757 [(0, .ref b), (1, .ref (ad 55)), (2, .ref (bd 67)), (3, .ref qo), (4, .int i)] [] := by
  rw [fL_c22] at h
  refine r_aload_n G 1 rfl rfl dL_law_1757 ?_
  refine r_aload_n G 0 rfl rfl dL_law_1758 ?_
  refine r_iload G 4 rfl dL_law_1759 ?_
  refine r_iconst G (v := 1) (by decide) dL_law_1761 ?_
  refine r_iadd G dL_law_1762 ?_
  obtain ⟨g1, h⟩ := og h
  refine r_sld G hX hbl hbA (vin_in g1) dL_law_1763 ?_
  refine r_aload_n G 3 rfl rfl dL_law_1764 ?_
  obtain ⟨o2, e2, h⟩ := ob h
  refine r_callSixH G [.ref (ad 55), .int (ys (i + 1).toNatClampNeg), .ref qo] (qL_isKept hE hT hfl hC (ys (i + 1).toNatClampNeg) _ e2) gL_law_L_isKept rfl hdL_isKept ⟨Nat.le_of_ble_eq_true rfl, Nat.le_of_ble_eq_true rfl⟩ (Nat.le_of_ble_eq_true rfl) rfl ⟨by first | exact hcC | exact Nat.le_trans (Nat.le_add_right _ 8) hcC, by first | exact hcS | exact Nat.le_trans (Nat.le_add_right _ 40) hcS⟩ rfl rfl dL_law_1765 (fun k9 st9 hp9 => ?_) (fun r2 s2 hp hn2 => ?_)
  · subst hp9
    try dsimp only [Sum.elim_inl] at h
    cases h
  subst hp
  try dsimp only [Sum.elim_inr] at h
  refine r_istore G (lv' := [(0, .ref b), (1, .ref (ad 55)), (2, .ref (bd 67)), (3, .ref qo), (4, .int i), (5, .int r2)]) [1, 2, 3, 4, 5, 0] rfl (by decide) dL_law_1768 ?_
  refine r_aload_n G 2 rfl rfl dL_law_1770 ?_
  refine r_aload_n G 0 rfl rfl dL_law_1771 ?_
  refine r_iload G 4 rfl dL_law_1772 ?_
  refine r_iconst G (v := 1) (by decide) dL_law_1774 ?_
  refine r_iadd G dL_law_1775 ?_
  obtain ⟨g3, h⟩ := og h
  refine r_sld G hX hbl hbA (vin_in g3) dL_law_1776 ?_
  obtain ⟨o4, e4, h⟩ := ob h
  refine e_callVi G (fun x9 : mS => (s2.1, x9, s2.2.2)) (fun x9 => lW_m ad bd κ qo _ x9 _) rfl [.int (ys (i + 1).toNatClampNeg)] (qX8_isKept hE (ys (i + 1).toNatClampNeg) _ e4) ⟨146, 8, _, _, rfl, (lw_MO ad bd κ qo _), rfl⟩ gL_law_X8_isKept rfl hdX8_isKept ⟨Nat.le_of_ble_eq_true rfl, Nat.le_of_ble_eq_true rfl⟩ (Nat.le_of_ble_eq_true rfl) rfl ⟨by first | exact hcC | exact Nat.le_trans (Nat.le_add_right _ 8) hcC, by first | exact hcS | exact Nat.le_trans (Nat.le_add_right _ 40) hcS⟩ rfl rfl dL_law_1777 (fun r4 s4 hp hn4 => ?_)
  subst hp
  try dsimp only at h
  refine r_istore G (lv' := [(0, .ref b), (1, .ref (ad 55)), (2, .ref (bd 67)), (3, .ref qo), (4, .int i), (5, .int r2), (6, .int r4)]) [1, 2, 3, 4, 5, 6, 0] rfl (by decide) dL_law_1780 ?_
  refine r_aload_n G 2 rfl rfl dL_law_1782 ?_
  refine e_callVi G (fun x9 : mS => (s2.1, x9, s2.2.2)) (fun x9 => lW_m ad bd κ qo _ x9 _) rfl [] (qX8_thrown hE _) ⟨146, 8, _, _, rfl, (lw_MO ad bd κ qo _), rfl⟩ gL_law_X8_thrown rfl hdX8_thrown ⟨Nat.le_of_ble_eq_true rfl, Nat.le_of_ble_eq_true rfl⟩ (Nat.le_of_ble_eq_true rfl) rfl ⟨by first | exact hcC | exact Nat.le_trans (Nat.le_add_right _ 8) hcC, by first | exact hcS | exact Nat.le_trans (Nat.le_add_right _ 40) hcS⟩ rfl rfl dL_law_1783 (fun r5 s5 hp hn5 => ?_)
  obtain ⟨rfl, hs⟩ := hp
  have hs := hs.symm
  subst hs
  refine r_iload G 5 rfl dL_law_1786 ?_
  refine r_icmp_eq G (tgt := 1793) dL_law_1788 (by decide) (fun c => ?_) (fun c => ?_)
  · rw [if_pos c] at h
    refine r_iload G 5 rfl dL_law_1793 ?_
    refine r_if_ne G (tgt := 1817) dL_law_1795 (by decide) (fun c => ?_) (fun c => ?_)
    · rw [if_neg c] at h
      refine r_goto G (tgt := 2906) dL_law_1817 (by decide) ?_
      refine V.sub (lv' := [(0, .ref b), (1, .ref (ad 55)), (2, .ref (bd 67)), (3, .ref qo), (4, .int i)]) [0, 1, 2, 3, 4] rfl ?_
      have h := Option.some.inj h
      subst h
      exact V.widen (by first | exact Nat.le_refl _ | exact Nat.le_add_right _ _) (by first | exact Nat.le_refl _ | exact Nat.le_add_right _ _) hk
    · rw [if_pos c] at h
      refine r_aload_n G 3 rfl rfl dL_law_1798 ?_
      refine r_iconst G (v := 0) (by decide) dL_law_1799 ?_
      refine r_outld G dL_law_1800 ?_
      refine r_iload G 6 rfl dL_law_1801 ?_
      refine r_if_eq G (tgt := 1810) dL_law_1803 (by decide) (fun c => ?_) (fun c => ?_)
      · rw [if_pos c] at h
        refine r_lconst G (v := 0) (by decide) dL_law_1810 ?_
        refine r_lcmp G dL_law_1811 ?_
        refine r_if_eq G (tgt := 1817) dL_law_1812 (by decide) (fun c => ?_) (fun c => ?_)
        · rw [if_pos c] at h
          refine r_goto G (tgt := 2906) dL_law_1817 (by decide) ?_
          refine V.sub (lv' := [(0, .ref b), (1, .ref (ad 55)), (2, .ref (bd 67)), (3, .ref qo), (4, .int i)]) [0, 1, 2, 3, 4] rfl ?_
          have h := Option.some.inj h
          subst h
          exact V.widen (by first | exact Nat.le_refl _ | exact Nat.le_add_right _ _) (by first | exact Nat.le_refl _ | exact Nat.le_add_right _ _) hk
        · rw [if_neg c] at h
          refine r_iconst G (v := 0) (by decide) dL_law_1815 ?_
          cases h
      · rw [if_neg c] at h
        refine r_lconst G (v := 1) (by decide) dL_law_1806 ?_
        refine r_goto G (tgt := 1811) dL_law_1807 (by decide) ?_
        refine r_lcmp G dL_law_1811 ?_
        refine r_if_eq G (tgt := 1817) dL_law_1812 (by decide) (fun c => ?_) (fun c => ?_)
        · rw [if_pos c] at h
          refine r_goto G (tgt := 2906) dL_law_1817 (by decide) ?_
          refine V.sub (lv' := [(0, .ref b), (1, .ref (ad 55)), (2, .ref (bd 67)), (3, .ref qo), (4, .int i)]) [0, 1, 2, 3, 4] rfl ?_
          have h := Option.some.inj h
          subst h
          exact V.widen (by first | exact Nat.le_refl _ | exact Nat.le_add_right _ _) (by first | exact Nat.le_refl _ | exact Nat.le_add_right _ _) hk
        · rw [if_neg c] at h
          refine r_iconst G (v := 0) (by decide) dL_law_1815 ?_
          cases h
  · rw [if_neg c] at h
    refine r_iconst G (v := 0) (by decide) dL_law_1791 ?_
    cases h

theorem hdX7_kept : yX7_kept.cls = RX7 ∧ yX7_kept.cls ≠ "java/lang/invoke/MethodHandle" ∧ yX7_kept.cls ≠ "java/lang/invoke/VarHandle" ∧ (parseMethodDescriptor yX7_kept.desc).map (fun d => d.parameters.length) = some 0 := by decide +kernel
theorem hdX8_kept : yX8_kept.cls = RX8 ∧ yX8_kept.cls ≠ "java/lang/invoke/MethodHandle" ∧ yX8_kept.cls ≠ "java/lang/invoke/VarHandle" ∧ (parseMethodDescriptor yX8_kept.desc).map (fun d => d.parameters.length) = some 0 := by decide +kernel
set_option maxHeartbeats 4000000 in
set_option maxRecDepth 100000 in
theorem wL_c23 {E : evT} {l : Launch} {D : va_G} {ad bd : Nat → Nat} {qo : Nat} {κ : Nat → ClassId} {kK kV : Nat → Nat} (hE : EvOk E) (hT : TOk E) (hfl : l.stackTraces = false) (hC : COk E) (hSt : SOk E kK kV) {Γ : cxT} (G : Cx (lW ad bd κ qo) D (tyA κ) E l Γ code RL wsL_law 9 room_1) {b L : Nat} {ys : Nat → Int32} (hX : va_X b L ys (xs Γ) (xH Γ)) (hbl : b < (xH Γ).size) (hbA : ¬ xA Γ b) {C S : Nat} (hcC : C + 8 ≤ room_1.cells) (hcS : S + 40 ≤ room_1.slots) (i : Int32) (s : lS) {o : lS} (hk : V (lW ad bd κ qo) D Γ o (C + 8) (S + 40) 2906 [(0, .ref b), (1, .ref (ad 55)), (2, .ref (bd 67)), (3, .ref qo), (4, .int i)] []) (h : fL_c23 L ys i s = some o) : V (lW ad bd κ qo) D Γ s C S 1820 [(0, .ref b), (1, .ref (ad 55)), (2, .ref (bd 67)), (3, .ref qo), (4, .int i)] [] := by
  rw [fL_c23] at h
  refine r_aload_n G 1 rfl rfl dL_law_1820 ?_
  refine e_callVi G (fun x9 : cS => (x9, s.2.1, s.2.2)) (fun x9 => lW_c ad bd κ qo x9 _ _) rfl [] (qX7_kept hE _) ⟨55, 7, _, _, rfl, (lw_SC ad bd κ qo _), rfl⟩ gL_law_X7_kept rfl hdX7_kept ⟨Nat.le_of_ble_eq_true rfl, Nat.le_of_ble_eq_true rfl⟩ (Nat.le_of_ble_eq_true rfl) rfl ⟨by first | exact hcC | exact Nat.le_trans (Nat.le_add_right _ 8) hcC, by first | exact hcS | exact Nat.le_trans (Nat.le_add_right _ 40) hcS⟩ rfl rfl dL_law_1821 (fun r1 s1 hp hn1 => ?_)
  obtain ⟨rfl, hs⟩ := hp
  have hs := hs.symm
  subst hs
  refine r_aload_n G 2 rfl rfl dL_law_1824 ?_
  obtain ⟨o2, e2, h⟩ := ob h
  refine e_callVi G (fun x9 : mS => (s.1, x9, s.2.2)) (fun x9 => lW_m ad bd κ qo _ x9 _) rfl [] (qX8_kept hE _ e2) ⟨146, 8, _, _, rfl, (lw_MO ad bd κ qo _), rfl⟩ gL_law_X8_kept rfl hdX8_kept ⟨Nat.le_of_ble_eq_true rfl, Nat.le_of_ble_eq_true rfl⟩ (Nat.le_of_ble_eq_true rfl) rfl ⟨by first | exact hcC | exact Nat.le_trans (Nat.le_add_right _ 8) hcC, by first | exact hcS | exact Nat.le_trans (Nat.le_add_right _ 40) hcS⟩ rfl rfl dL_law_1825 (fun r2 s2 hp hn2 => ?_)
  subst hp
  try dsimp only at h
  refine r_icmp_eq G (tgt := 2906) dL_law_1828 (by decide) (fun c => ?_) (fun c => ?_)
  · rw [if_pos c] at h
    have h := Option.some.inj h
    subst h
    exact V.widen (by first | exact Nat.le_refl _ | exact Nat.le_add_right _ _) (by first | exact Nat.le_refl _ | exact Nat.le_add_right _ _) hk
  · rw [if_neg c] at h
    refine r_iconst G (v := 0) (by decide) dL_law_1831 ?_
    cases h
