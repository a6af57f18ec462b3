theorem hdL_add : yL_add.cls ≠ "java/lang/invoke/MethodHandle" ∧ yL_add.cls ≠ "java/lang/invoke/VarHandle" ∧ (parseMethodDescriptor yL_add.desc).map (fun d => d.parameters.length) = some 4 := by decide +kernel
theorem hdX8_add : yX8_add.cls = RX8 ∧ yX8_add.cls ≠ "java/lang/invoke/MethodHandle" ∧ yX8_add.cls ≠ "java/lang/invoke/VarHandle" ∧ (parseMethodDescriptor yX8_add.desc).map (fun d => d.parameters.length) = some 2 := by decide +kernel
theorem hdX8_thrown : yX8_thrown.cls = RX8 ∧ yX8_thrown.cls ≠ "java/lang/invoke/MethodHandle" ∧ yX8_thrown.cls ≠ "java/lang/invoke/VarHandle" ∧ (parseMethodDescriptor yX8_thrown.desc).map (fun d => d.parameters.length) = some 0 := by decide +kernel
set_option maxHeartbeats 4000000 in
set_option maxRecDepth 100000 in
theorem wL_c0 {E : evT} {l : Launch} {D : va_G} {ad bd : Nat → Nat} {qo : Nat} {κ : Nat → ClassId} {kK kV : Nat → Nat} (hE : EvOk E) (hT : TOk E) (hfl : l.stackTraces = false) (hC : COk E) (hSt : SOk E kK kV) {Γ : cxT} (G : Cx (lW ad bd κ qo) D (tyA κ) E l Γ code RL wsL_law 9 room_1) {b L : Nat} {ys : Nat → Int32} (hX : va_X b L ys (xs Γ) (xH Γ)) (hbl : b < (xH Γ).size) (hbA : ¬ xA Γ b) {C S : Nat} (hcC : C + 8 ≤ room_1.cells) (hcS : S + 40 ≤ room_1.slots) (i : Int32) (s : lS) {o : lS} (hk : V (lW ad bd κ qo) D Γ o (C + 8) (S + 40) 2906 [(0, .ref b), (1, .ref (ad 55)), (2, .ref (bd 67)), (3, .ref qo), (4, .int i)] []) (h : fL_c0 L ys i s = some o) : V (lW ad bd κ qo) D Γ s C S 244 [(0, .ref b), (1, .ref (ad 55)), (2, .ref (bd 67)), (3, .ref qo), (4, .int i)] [] := by
  rw [fL_c0] at h
  refine r_aload_n G 1 rfl rfl dL_law_244 ?_
  refine r_aload_n G 0 rfl rfl dL_law_245 ?_
  refine r_iload G 4 rfl dL_law_246 ?_
  refine r_iconst G (v := 1) (by decide) dL_law_248 ?_
  refine r_iadd G dL_law_249 ?_
  obtain ⟨g1, h⟩ := og h
  refine r_sld G hX hbl hbA (vin_in g1) dL_law_250 ?_
  refine r_aload_n G 0 rfl rfl dL_law_251 ?_
  refine r_iload G 4 rfl dL_law_252 ?_
  refine r_iconst G (v := 2) (by decide) dL_law_254 ?_
  refine r_iadd G dL_law_255 ?_
  obtain ⟨g2, h⟩ := og h
  refine r_sld G hX hbl hbA (vin_in g2) dL_law_256 ?_
  refine r_aload_n G 3 rfl rfl dL_law_257 ?_
  obtain ⟨o3, e3, h⟩ := ob h
  refine r_callSixH G [.ref (ad 55), .int (ys (i + 1).toNatClampNeg), .int (ys (i + 2).toNatClampNeg), .ref qo] (qL_add hE hT hfl hC (ys (i + 1).toNatClampNeg) (ys (i + 2).toNatClampNeg) _ e3) gL_law_L_add rfl hdL_add ⟨Nat.le_of_ble_eq_true rfl, Nat.le_of_ble_eq_true rfl⟩ (Nat.le_of_ble_eq_true rfl) rfl ⟨by first | exact hcC | exact Nat.le_trans (Nat.le_add_right _ 8) hcC, by first | exact hcS | exact Nat.le_trans (Nat.le_add_right _ 40) hcS⟩ rfl rfl dL_law_258 (fun k9 st9 hp9 => ?_) (fun r3 s3 hp hn3 => ?_)
  · subst hp9
    try dsimp only [Sum.elim_inl] at h
    cases h
  subst hp
  try dsimp only [Sum.elim_inr] at h
  refine r_istore G (lv' := [(0, .ref b), (1, .ref (ad 55)), (2, .ref (bd 67)), (3, .ref qo), (4, .int i), (5, .int r3)]) [1, 2, 3, 4, 5, 0] rfl (by decide) dL_law_261 ?_
  refine r_aload_n G 2 rfl rfl dL_law_263 ?_
  refine r_aload_n G 0 rfl rfl dL_law_264 ?_
  refine r_iload G 4 rfl dL_law_265 ?_
  refine r_iconst G (v := 1) (by decide) dL_law_267 ?_
  refine r_iadd G dL_law_268 ?_
  obtain ⟨g4, h⟩ := og h
  refine r_sld G hX hbl hbA (vin_in g4) dL_law_269 ?_
  refine r_aload_n G 0 rfl rfl dL_law_270 ?_
  refine r_iload G 4 rfl dL_law_271 ?_
  refine r_iconst G (v := 2) (by decide) dL_law_273 ?_
  refine r_iadd G dL_law_274 ?_
  obtain ⟨g5, h⟩ := og h
  refine r_sld G hX hbl hbA (vin_in g5) dL_law_275 ?_
  obtain ⟨o6, e6, h⟩ := ob h
  refine e_callVi G (fun x9 : mS => (s3.1, x9, s3.2.2)) (fun x9 => lW_m ad bd κ qo _ x9 _) rfl [.int (ys (i + 1).toNatClampNeg), .int (ys (i + 2).toNatClampNeg)] (qX8_add hE (ys (i + 1).toNatClampNeg) (ys (i + 2).toNatClampNeg) _ e6) ⟨146, 8, _, _, rfl, (lw_MO ad bd κ qo _), rfl⟩ gL_law_X8_add rfl hdX8_add ⟨Nat.le_of_ble_eq_true rfl, Nat.le_of_ble_eq_true rfl⟩ (Nat.le_of_ble_eq_true rfl) rfl ⟨by first | exact hcC | exact Nat.le_trans (Nat.le_add_right _ 8) hcC, by first | exact hcS | exact Nat.le_trans (Nat.le_add_right _ 40) hcS⟩ rfl rfl dL_law_276 (fun r6 s6 hp hn6 => ?_)
  subst hp
  try dsimp only at h
  refine r_istore G (lv' := [(0, .ref b), (1, .ref (ad 55)), (2, .ref (bd 67)), (3, .ref qo), (4, .int i), (5, .int r3), (6, .int r6)]) [1, 2, 3, 4, 5, 6, 0] rfl (by decide) dL_law_279 ?_
  refine r_aload_n G 2 rfl rfl dL_law_281 ?_
  refine e_callVi G (fun x9 : mS => (s3.1, x9, s3.2.2)) (fun x9 => lW_m ad bd κ qo _ x9 _) rfl [] (qX8_thrown hE _) ⟨146, 8, _, _, rfl, (lw_MO ad bd κ qo _), rfl⟩ gL_law_X8_thrown rfl hdX8_thrown ⟨Nat.le_of_ble_eq_true rfl, Nat.le_of_ble_eq_true rfl⟩ (Nat.le_of_ble_eq_true rfl) rfl ⟨by first | exact hcC | exact Nat.le_trans (Nat.le_add_right _ 8) hcC, by first | exact hcS | exact Nat.le_trans (Nat.le_add_right _ 40) hcS⟩ rfl rfl dL_law_282 (fun r7 s7 hp hn7 => ?_)
  obtain ⟨rfl, hs⟩ := hp
  have hs := hs.symm
  subst hs
  refine r_iload G 5 rfl dL_law_285 ?_
  refine r_icmp_eq G (tgt := 292) dL_law_287 (by decide) (fun c => ?_) (fun c => ?_)
  · rw [if_pos c] at h
    refine r_iload G 5 rfl dL_law_292 ?_
    refine r_if_ne G (tgt := 316) dL_law_294 (by decide) (fun c => ?_) (fun c => ?_)
    · rw [if_neg c] at h
      refine r_goto G (tgt := 2906) dL_law_316 (by decide) ?_
      refine V.sub (lv' := [(0, .ref b), (1, .ref (ad 55)), (2, .ref (bd 67)), (3, .ref qo), (4, .int i)]) [0, 1, 2, 3, 4] rfl ?_
      have h := Option.some.inj h
      subst h
      exact V.widen (by first | exact Nat.le_refl _ | exact Nat.le_add_right _ _) (by first | exact Nat.le_refl _ | exact Nat.le_add_right _ _) hk
    · rw [if_pos c] at h
      refine r_aload_n G 3 rfl rfl dL_law_297 ?_
      refine r_iconst G (v := 0) (by decide) dL_law_298 ?_
      refine r_outld G dL_law_299 ?_
      refine r_iload G 6 rfl dL_law_300 ?_
      refine r_if_eq G (tgt := 309) dL_law_302 (by decide) (fun c => ?_) (fun c => ?_)
      · rw [if_pos c] at h
        refine r_lconst G (v := 0) (by decide) dL_law_309 ?_
        refine r_lcmp G dL_law_310 ?_
        refine r_if_eq G (tgt := 316) dL_law_311 (by decide) (fun c => ?_) (fun c => ?_)
        · rw [if_pos c] at h
          refine r_goto G (tgt := 2906) dL_law_316 (by decide) ?_
          refine V.sub (lv' := [(0, .ref b), (1, .ref (ad 55)), (2, .ref (bd 67)), (3, .ref qo), (4, .int i)]) [0, 1, 2, 3, 4] rfl ?_
          have h := Option.some.inj h
          subst h
          exact V.widen (by first | exact Nat.le_refl _ | exact Nat.le_add_right _ _) (by first | exact Nat.le_refl _ | exact Nat.le_add_right _ _) hk
        · rw [if_neg c] at h
          refine r_iconst G (v := 0) (by decide) dL_law_314 ?_
          cases h
      · rw [if_neg c] at h
        refine r_lconst G (v := 1) (by decide) dL_law_305 ?_
        refine r_goto G (tgt := 310) dL_law_306 (by decide) ?_
        refine r_lcmp G dL_law_310 ?_
        refine r_if_eq G (tgt := 316) dL_law_311 (by decide) (fun c => ?_) (fun c => ?_)
        · rw [if_pos c] at h
          refine r_goto G (tgt := 2906) dL_law_316 (by decide) ?_
          refine V.sub (lv' := [(0, .ref b), (1, .ref (ad 55)), (2, .ref (bd 67)), (3, .ref qo), (4, .int i)]) [0, 1, 2, 3, 4] rfl ?_
          have h := Option.some.inj h
          subst h
          exact V.widen (by first | exact Nat.le_refl _ | exact Nat.le_add_right _ _) (by first | exact Nat.le_refl _ | exact Nat.le_add_right _ _) hk
        · rw [if_neg c] at h
          refine r_iconst G (v := 0) (by decide) dL_law_314 ?_
          cases h
  · rw [if_neg c] at h
    refine r_iconst G (v := 0) (by decide) dL_law_290 ?_
    cases h

theorem hdL_remove : yL_remove.cls ≠ "java/lang/invoke/MethodHandle" ∧ yL_remove.cls ≠ "java/lang/invoke/VarHandle" ∧ (parseMethodDescriptor yL_remove.desc).map (fun d => d.parameters.length) = some 4 := by decide +kernel
theorem hdX8_remove : yX8_remove.cls = RX8 ∧ yX8_remove.cls ≠ "java/lang/invoke/MethodHandle" ∧ yX8_remove.cls ≠ "java/lang/invoke/VarHandle" ∧ (parseMethodDescriptor yX8_remove.desc).map (fun d => d.parameters.length) = some 2 := by decide +kernel
set_option maxHeartbeats 4000000 in
set_option maxRecDepth 100000 in
theorem wL_c1 {E : evT} {l : Launch} {D : va_G} {ad bd : Nat → Nat} {qo : Nat} {κ : Nat → ClassId} {kK kV : Nat → Nat} (hE : EvOk E) (hT : TOk E) (hfl : l.stackTraces = false) (hC : COk E) (hSt : SOk E kK kV) {Γ : cxT} (G : Cx (lW ad bd κ qo) D (tyA κ) E l Γ code RL wsL_law 9 room_1) {b L : Nat} {ys : Nat → Int32} (hX : va_X b L ys (xs Γ) (xH Γ)) (hbl : b < (xH Γ).size) (hbA : ¬ xA Γ b) {C S : Nat} (hcC : C + 8 ≤ room_1.cells) (hcS : S + 40 ≤ room_1.slots) (i : Int32) (s : lS) {o : lS} (hk : V (lW ad bd κ qo) D Γ o (C + 8) (S + 40) 2906 [(0, .ref b), (1, .ref (ad 55)), (2, .ref (bd 67)), (3, .ref qo), (4, .int i)] []) (h : fL_c1 L ys i s = some o) : V (lW ad bd κ qo) D Γ s C S 319 [(0, .ref b), (1, .ref (ad 55)), (2, .ref (bd 67)), (3, .ref qo), (4, .int i)] [] := by
  rw [fL_c1] at h
  refine r_aload_n G 1 rfl rfl dL_law_319 ?_
  refine r_aload_n G 0 rfl rfl dL_law_320 ?_
  refine r_iload G 4 rfl dL_law_321 ?_
  refine r_iconst G (v := 1) (by decide) dL_law_323 ?_
  refine r_iadd G dL_law_324 ?_
  obtain ⟨g1, h⟩ := og h
  refine r_sld G hX hbl hbA (vin_in g1) dL_law_325 ?_
  refine r_aload_n G 0 rfl rfl dL_law_326 ?_
  refine r_iload G 4 rfl dL_law_327 ?_
  refine r_iconst G (v := 2) (by decide) dL_law_329 ?_
  refine r_iadd G dL_law_330 ?_
  obtain ⟨g2, h⟩ := og h
  refine r_sld G hX hbl hbA (vin_in g2) dL_law_331 ?_
  refine r_aload_n G 3 rfl rfl dL_law_332 ?_
  obtain ⟨o3, e3, h⟩ := ob h
  refine r_callSixH G [.ref (ad 55), .int (ys (i + 1).toNatClampNeg), .int (ys (i + 2).toNatClampNeg), .ref qo] (qL_remove hE hT hfl hC (ys (i + 1).toNatClampNeg) (ys (i + 2).toNatClampNeg) _ e3) gL_law_L_remove rfl hdL_remove ⟨Nat.le_of_ble_eq_true rfl, Nat.le_of_ble_eq_true rfl⟩ (Nat.le_of_ble_eq_true rfl) rfl ⟨by first | exact hcC | exact Nat.le_trans (Nat.le_add_right _ 8) hcC, by first | exact hcS | exact Nat.le_trans (Nat.le_add_right _ 40) hcS⟩ rfl rfl dL_law_333 (fun k9 st9 hp9 => ?_) (fun r3 s3 hp hn3 => ?_)
  · subst hp9
    try dsimp only [Sum.elim_inl] at h
    cases h
  subst hp
  try dsimp only [Sum.elim_inr] at h
  refine r_istore G (lv' := [(0, .ref b), (1, .ref (ad 55)), (2, .ref (bd 67)), (3, .ref qo), (4, .int i), (5, .int r3)]) [1, 2, 3, 4, 5, 0] rfl (by decide) dL_law_336 ?_
  refine r_aload_n G 2 rfl rfl dL_law_338 ?_
  refine r_aload_n G 0 rfl rfl dL_law_339 ?_
  refine r_iload G 4 rfl dL_law_340 ?_
  refine r_iconst G (v := 1) (by decide) dL_law_342 ?_
  refine r_iadd G dL_law_343 ?_
  obtain ⟨g4, h⟩ := og h
  refine r_sld G hX hbl hbA (vin_in g4) dL_law_344 ?_
  refine r_aload_n G 0 rfl rfl dL_law_345 ?_
  refine r_iload G 4 rfl dL_law_346 ?_
  refine r_iconst G (v := 2) (by decide) dL_law_348 ?_
  refine r_iadd G dL_law_349 ?_
  obtain ⟨g5, h⟩ := og h
  refine r_sld G hX hbl hbA (vin_in g5) dL_law_350 ?_
  obtain ⟨o6, e6, h⟩ := ob h
  refine e_callVi G (fun x9 : mS => (s3.1, x9, s3.2.2)) (fun x9 => lW_m ad bd κ qo _ x9 _) rfl [.int (ys (i + 1).toNatClampNeg), .int (ys (i + 2).toNatClampNeg)] (qX8_remove hE (ys (i + 1).toNatClampNeg) (ys (i + 2).toNatClampNeg) _ e6) ⟨146, 8, _, _, rfl, (lw_MO ad bd κ qo _), rfl⟩ gL_law_X8_remove rfl hdX8_remove ⟨Nat.le_of_ble_eq_true rfl, Nat.le_of_ble_eq_true rfl⟩ (Nat.le_of_ble_eq_true rfl) rfl ⟨by first | exact hcC | exact Nat.le_trans (Nat.le_add_right _ 8) hcC, by first | exact hcS | exact Nat.le_trans (Nat.le_add_right _ 40) hcS⟩ rfl rfl dL_law_351 (fun r6 s6 hp hn6 => ?_)
  subst hp
  try dsimp only at h
  refine r_istore G (lv' := [(0, .ref b), (1, .ref (ad 55)), (2, .ref (bd 67)), (3, .ref qo), (4, .int i), (5, .int r3), (6, .int r6)]) [1, 2, 3, 4, 5, 6, 0] rfl (by decide) dL_law_354 ?_
  refine r_aload_n G 2 rfl rfl dL_law_356 ?_
  refine e_callVi G (fun x9 : mS => (s3.1, x9, s3.2.2)) (fun x9 => lW_m ad bd κ qo _ x9 _) rfl [] (qX8_thrown hE _) ⟨146, 8, _, _, rfl, (lw_MO ad bd κ qo _), rfl⟩ gL_law_X8_thrown rfl hdX8_thrown ⟨Nat.le_of_ble_eq_true rfl, Nat.le_of_ble_eq_true rfl⟩ (Nat.le_of_ble_eq_true rfl) rfl ⟨by first | exact hcC | exact Nat.le_trans (Nat.le_add_right _ 8) hcC, by first | exact hcS | exact Nat.le_trans (Nat.le_add_right _ 40) hcS⟩ rfl rfl dL_law_357 (fun r7 s7 hp hn7 => ?_)
  obtain ⟨rfl, hs⟩ := hp
  have hs := hs.symm
  subst hs
  refine r_iload G 5 rfl dL_law_360 ?_
  refine r_icmp_eq G (tgt := 367) dL_law_362 (by decide) (fun c => ?_) (fun c => ?_)
  · rw [if_pos c] at h
    refine r_iload G 5 rfl dL_law_367 ?_
    refine r_if_ne G (tgt := 391) dL_law_369 (by decide) (fun c => ?_) (fun c => ?_)
    · rw [if_neg c] at h
      refine r_goto G (tgt := 2906) dL_law_391 (by decide) ?_
      refine V.sub (lv' := [(0, .ref b), (1, .ref (ad 55)), (2, .ref (bd 67)), (3, .ref qo), (4, .int i)]) [0, 1, 2, 3, 4] rfl ?_
      have h := Option.some.inj h
      subst h
      exact V.widen (by first | exact Nat.le_refl _ | exact Nat.le_add_right _ _) (by first | exact Nat.le_refl _ | exact Nat.le_add_right _ _) hk
    · rw [if_pos c] at h
      refine r_aload_n G 3 rfl rfl dL_law_372 ?_
      refine r_iconst G (v := 0) (by decide) dL_law_373 ?_
      refine r_outld G dL_law_374 ?_
      refine r_iload G 6 rfl dL_law_375 ?_
      refine r_if_eq G (tgt := 384) dL_law_377 (by decide) (fun c => ?_) (fun c => ?_)
      · rw [if_pos c] at h
        refine r_lconst G (v := 0) (by decide) dL_law_384 ?_
        refine r_lcmp G dL_law_385 ?_
        refine r_if_eq G (tgt := 391) dL_law_386 (by decide) (fun c => ?_) (fun c => ?_)
        · rw [if_pos c] at h
          refine r_goto G (tgt := 2906) dL_law_391 (by decide) ?_
          refine V.sub (lv' := [(0, .ref b), (1, .ref (ad 55)), (2, .ref (bd 67)), (3, .ref qo), (4, .int i)]) [0, 1, 2, 3, 4] rfl ?_
          have h := Option.some.inj h
          subst h
          exact V.widen (by first | exact Nat.le_refl _ | exact Nat.le_add_right _ _) (by first | exact Nat.le_refl _ | exact Nat.le_add_right _ _) hk
        · rw [if_neg c] at h
          refine r_iconst G (v := 0) (by decide) dL_law_389 ?_
          cases h
      · rw [if_neg c] at h
        refine r_lconst G (v := 1) (by decide) dL_law_380 ?_
        refine r_goto G (tgt := 385) dL_law_381 (by decide) ?_
        refine r_lcmp G dL_law_385 ?_
        refine r_if_eq G (tgt := 391) dL_law_386 (by decide) (fun c => ?_) (fun c => ?_)
        · rw [if_pos c] at h
          refine r_goto G (tgt := 2906) dL_law_391 (by decide) ?_
          refine V.sub (lv' := [(0, .ref b), (1, .ref (ad 55)), (2, .ref (bd 67)), (3, .ref qo), (4, .int i)]) [0, 1, 2, 3, 4] rfl ?_
          have h := Option.some.inj h
          subst h
          exact V.widen (by first | exact Nat.le_refl _ | exact Nat.le_add_right _ _) (by first | exact Nat.le_refl _ | exact Nat.le_add_right _ _) hk
        · rw [if_neg c] at h
          refine r_iconst G (v := 0) (by decide) dL_law_389 ?_
          cases h
  · rw [if_neg c] at h
    refine r_iconst G (v := 0) (by decide) dL_law_365 ?_
    cases h

theorem hdL_has : yL_has.cls ≠ "java/lang/invoke/MethodHandle" ∧ yL_has.cls ≠ "java/lang/invoke/VarHandle" ∧ (parseMethodDescriptor yL_has.desc).map (fun d => d.parameters.length) = some 4 := by decide +kernel
set_option maxHeartbeats 4000000 in
set_option maxRecDepth 100000 in
theorem wL_c2 {E : evT} {l : Launch} {D : va_G} {ad bd : Nat → Nat} {qo : Nat} {κ : Nat → ClassId} {kK kV : Nat → Nat} (hE : EvOk E) (hT : TOk E) (hfl : l.stackTraces = false) (hC : COk E) (hSt : SOk E kK kV) {Γ : cxT} (G : Cx (lW ad bd κ qo) D (tyA κ) E l Γ code RL wsL_law 9 room_1) {b L : Nat} {ys : Nat → Int32} (hX : va_X b L ys (xs Γ) (xH Γ)) (hbl : b < (xH Γ).size) (hbA : ¬ xA Γ b) {C S : Nat} (hcC : C + 8 ≤ room_1.cells) (hcS : S + 40 ≤ room_1.slots) (i : Int32) (s : lS) {o : lS} (hk : V (lW ad bd κ qo) D Γ o (C + 8) (S + 40) 2906 [(0, .ref b), (1, .ref (ad 55)), (2, .ref (bd 67)), (3, .ref qo), (4, .int i)] []) (h : fL_c2 L ys i s = some o) : V (lW ad bd κ qo) D Γ s C S 394 [(0, .ref b), (1, .ref (ad 55)), (2, .ref (bd 67)), (3, .ref qo), (4, .int i)] [] := by
  rw [fL_c2] at h
  refine r_aload_n G 1 rfl rfl dL_law_394 ?_
  refine r_aload_n G 0 rfl rfl dL_law_395 ?_
  refine r_iload G 4 rfl dL_law_396 ?_
  refine r_iconst G (v := 1) (by decide) dL_law_398 ?_
  refine r_iadd G dL_law_399 ?_
  obtain ⟨g1, h⟩ := og h
  refine r_sld G hX hbl hbA (vin_in g1) dL_law_400 ?_
  refine r_aload_n G 0 rfl rfl dL_law_401 ?_
  refine r_iload G 4 rfl dL_law_402 ?_
  refine r_iconst G (v := 2) (by decide) dL_law_404 ?_
  refine r_iadd G dL_law_405 ?_
  obtain ⟨g2, h⟩ := og h
  refine r_sld G hX hbl hbA (vin_in g2) dL_law_406 ?_
  refine r_aload_n G 3 rfl rfl dL_law_407 ?_
  obtain ⟨o3, e3, h⟩ := ob h
  refine r_callSixH G [.ref (ad 55), .int (ys (i + 1).toNatClampNeg), .int (ys (i + 2).toNatClampNeg), .ref qo] (qL_has hE hT hfl hC (ys (i + 1).toNatClampNeg) (ys (i + 2).toNatClampNeg) _ e3) gL_law_L_has rfl hdL_has ⟨Nat.le_of_ble_eq_true rfl, Nat.le_of_ble_eq_true rfl⟩ (Nat.le_of_ble_eq_true rfl) rfl ⟨by first | exact hcC | exact Nat.le_trans (Nat.le_add_right _ 8) hcC, by first | exact hcS | exact Nat.le_trans (Nat.le_add_right _ 40) hcS⟩ rfl rfl dL_law_408 (fun k9 st9 hp9 => ?_) (fun r3 s3 hp hn3 => ?_)
  · subst hp9
    try dsimp only [Sum.elim_inl] at h
    cases h
  subst hp
  try dsimp only [Sum.elim_inr] at h
  refine r_istore G (lv' := [(0, .ref b), (1, .ref (ad 55)), (2, .ref (bd 67)), (3, .ref qo), (4, .int i), (5, .int r3)]) [1, 2, 3, 4, 5, 0] rfl (by decide) dL_law_411 ?_
  refine r_aload_n G 2 rfl rfl dL_law_413 ?_
  refine r_aload_n G 0 rfl rfl dL_law_414 ?_
  refine r_iload G 4 rfl dL_law_415 ?_
  refine r_iconst G (v := 1) (by decide) dL_law_417 ?_
  refine r_iadd G dL_law_418 ?_
  obtain ⟨g4, h⟩ := og h
  refine r_sld G hX hbl hbA (vin_in g4) dL_law_419 ?_
  refine r_aload_n G 0 rfl rfl dL_law_420 ?_
  refine r_iload G 4 rfl dL_law_421 ?_
  refine r_iconst G (v := 2) (by decide) dL_law_423 ?_
  refine r_iadd G dL_law_424 ?_
  obtain ⟨g5, h⟩ := og h
  refine r_sld G hX hbl hbA (vin_in g5) dL_law_425 ?_
  obtain ⟨o6, e6, h⟩ := ob h
  refine e_callVi G (fun x9 : mS => (s3.1, x9, s3.2.2)) (fun x9 => lW_m ad bd κ qo _ x9 _) rfl [.int (ys (i + 1).toNatClampNeg), .int (ys (i + 2).toNatClampNeg)] (qX8_has hE (ys (i + 1).toNatClampNeg) (ys (i + 2).toNatClampNeg) _ e6) ⟨146, 8, _, _, rfl, (lw_MO ad bd κ qo _), rfl⟩ gL_law_X8_has rfl hdX8_has ⟨Nat.le_of_ble_eq_true rfl, Nat.le_of_ble_eq_true rfl⟩ (Nat.le_of_ble_eq_true rfl) rfl ⟨by first | exact hcC | exact Nat.le_trans (Nat.le_add_right _ 8) hcC, by first | exact hcS | exact Nat.le_trans (Nat.le_add_right _ 40) hcS⟩ rfl rfl dL_law_426 (fun r6 s6 hp hn6 => ?_)
  subst hp
  try dsimp only at h
  refine r_istore G (lv' := [(0, .ref b), (1, .ref (ad 55)), (2, .ref (bd 67)), (3, .ref qo), (4, .int i), (5, .int r3), (6, .int r6)]) [1, 2, 3, 4, 5, 6, 0] rfl (by decide) dL_law_429 ?_
  refine r_aload_n G 2 rfl rfl dL_law_431 ?_
  refine e_callVi G (fun x9 : mS => (s3.1, x9, s3.2.2)) (fun x9 => lW_m ad bd κ qo _ x9 _) rfl [] (qX8_thrown hE _) ⟨146, 8, _, _, rfl, (lw_MO ad bd κ qo _), rfl⟩ gL_law_X8_thrown rfl hdX8_thrown ⟨Nat.le_of_ble_eq_true rfl, Nat.le_of_ble_eq_true rfl⟩ (Nat.le_of_ble_eq_true rfl) rfl ⟨by first | exact hcC | exact Nat.le_trans (Nat.le_add_right _ 8) hcC, by first | exact hcS | exact Nat.le_trans (Nat.le_add_right _ 40) hcS⟩ rfl rfl dL_law_432 (fun r7 s7 hp hn7 => ?_)
  obtain ⟨rfl, hs⟩ := hp
  have hs := hs.symm
  subst hs
  refine r_iload G 5 rfl dL_law_435 ?_
  refine r_icmp_eq G (tgt := 442) dL_law_437 (by decide) (fun c => ?_) (fun c => ?_)
  · rw [if_pos c] at h
    refine r_iload G 5 rfl dL_law_442 ?_
    refine r_if_ne G (tgt := 466) dL_law_444 (by decide) (fun c => ?_) (fun c => ?_)
    · rw [if_neg c] at h
      refine r_goto G (tgt := 2906) dL_law_466 (by decide) ?_
      refine V.sub (lv' := [(0, .ref b), (1, .ref (ad 55)), (2, .ref (bd 67)), (3, .ref qo), (4, .int i)]) [0, 1, 2, 3, 4] rfl ?_
      have h := Option.some.inj h
      subst h
      exact V.widen (by first | exact Nat.le_refl _ | exact Nat.le_add_right _ _) (by first | exact Nat.le_refl _ | exact Nat.le_add_right _ _) hk
    · rw [if_pos c] at h
      refine r_aload_n G 3 rfl rfl dL_law_447 ?_
      refine r_iconst G (v := 0) (by decide) dL_law_448 ?_
      refine r_outld G dL_law_449 ?_
      refine r_iload G 6 rfl dL_law_450 ?_
      refine r_if_eq G (tgt := 459) dL_law_452 (by decide) (fun c => ?_) (fun c => ?_)
      · rw [if_pos c] at h
        refine r_lconst G (v := 0) (by decide) dL_law_459 ?_
        refine r_lcmp G dL_law_460 ?_
        refine r_if_eq G (tgt := 466) dL_law_461 (by decide) (fun c => ?_) (fun c => ?_)
        · rw [if_pos c] at h
          refine r_goto G (tgt := 2906) dL_law_466 (by decide) ?_
          refine V.sub (lv' := [(0, .ref b), (1, .ref (ad 55)), (2, .ref (bd 67)), (3, .ref qo), (4, .int i)]) [0, 1, 2, 3, 4] rfl ?_
          have h := Option.some.inj h
          subst h
          exact V.widen (by first | exact Nat.le_refl _ | exact Nat.le_add_right _ _) (by first | exact Nat.le_refl _ | exact Nat.le_add_right _ _) hk
        · rw [if_neg c] at h
          refine r_iconst G (v := 0) (by decide) dL_law_464 ?_
          cases h
      · rw [if_neg c] at h
        refine r_lconst G (v := 1) (by decide) dL_law_455 ?_
        refine r_goto G (tgt := 460) dL_law_456 (by decide) ?_
        refine r_lcmp G dL_law_460 ?_
        refine r_if_eq G (tgt := 466) dL_law_461 (by decide) (fun c => ?_) (fun c => ?_)
        · rw [if_pos c] at h
          refine r_goto G (tgt := 2906) dL_law_466 (by decide) ?_
          refine V.sub (lv' := [(0, .ref b), (1, .ref (ad 55)), (2, .ref (bd 67)), (3, .ref qo), (4, .int i)]) [0, 1, 2, 3, 4] rfl ?_
          have h := Option.some.inj h
          subst h
          exact V.widen (by first | exact Nat.le_refl _ | exact Nat.le_add_right _ _) (by first | exact Nat.le_refl _ | exact Nat.le_add_right _ _) hk
        · rw [if_neg c] at h
          refine r_iconst G (v := 0) (by decide) dL_law_464 ?_
          cases h
  · rw [if_neg c] at h
    refine r_iconst G (v := 0) (by decide) dL_law_440 ?_
    cases h

theorem hdL_size : yL_size.cls ≠ "java/lang/invoke/MethodHandle" ∧ yL_size.cls ≠ "java/lang/invoke/VarHandle" ∧ (parseMethodDescriptor yL_size.desc).map (fun d => d.parameters.length) = some 3 := by decide +kernel
theorem hdX8_size : yX8_size.cls = RX8 ∧ yX8_size.cls ≠ "java/lang/invoke/MethodHandle" ∧ yX8_size.cls ≠ "java/lang/invoke/VarHandle" ∧ (parseMethodDescriptor yX8_size.desc).map (fun d => d.parameters.length) = some 1 := by decide +kernel
set_option maxHeartbeats 4000000 in
set_option maxRecDepth 100000 in
theorem wL_c3 {E : evT} {l : Launch} {D : va_G} {ad bd : Nat → Nat} {qo : Nat} {κ : Nat → ClassId} {kK kV : Nat → Nat} (hE : EvOk E) (hT : TOk E) (hfl : l.stackTraces = false) (hC : COk E) (hSt : SOk E kK kV) {Γ : cxT} (G : Cx (lW ad bd κ qo) D (tyA κ) E l Γ code RL wsL_law 9 room_1) {b L : Nat} {ys : Nat → Int32} (hX : va_X b L ys (xs Γ) (xH Γ)) (hbl : b < (xH Γ).size) (hbA : ¬ xA Γ b) {C S : Nat} (hcC : C + 8 ≤ room_1.cells) (hcS : S + 40 ≤ room_1.slots) (i : Int32) (s : lS) {o : lS} (hk : V (lW ad bd κ qo) D Γ o (C + 8) (S + 40) 2906 [(0, .ref b), (1, .ref (ad 55)), (2, .ref (bd 67)), (3, .ref qo), (4, .int i)] []) (h : fL_c3 L ys i s = some o) : V (lW ad bd κ qo) D Γ s C S 469 [(0, .ref b), (1, .ref (ad 55)), (2, .ref (bd 67)), (3, .ref qo), (4, .int i)] [] := by
  rw [fL_c3] at h
  refine r_aload_n G 1 rfl rfl dL_law_469 ?_
  refine r_aload_n G 0 rfl rfl dL_law_470 ?_
  refine r_iload G 4 rfl dL_law_471 ?_
  refine r_iconst G (v := 1) (by decide) dL_law_473 ?_
  refine r_iadd G dL_law_474 ?_
  obtain ⟨g1, h⟩ := og h
  refine r_sld G hX hbl hbA (vin_in g1) dL_law_475 ?_
  refine r_aload_n G 3 rfl rfl dL_law_476 ?_
  obtain ⟨o2, e2, h⟩ := ob h
  refine r_callSixH G [.ref (ad 55), .int (ys (i + 1).toNatClampNeg), .ref qo] (qL_size hE hT hfl hC (ys (i + 1).toNatClampNeg) _ e2) gL_law_L_size rfl hdL_size ⟨Nat.le_of_ble_eq_true rfl, Nat.le_of_ble_eq_true rfl⟩ (Nat.le_of_ble_eq_true rfl) rfl ⟨by first | exact hcC | exact Nat.le_trans (Nat.le_add_right _ 8) hcC, by first | exact hcS | exact Nat.le_trans (Nat.le_add_right _ 40) hcS⟩ rfl rfl dL_law_477 (fun k9 st9 hp9 => ?_) (fun r2 s2 hp hn2 => ?_)
  · subst hp9
    try dsimp only [Sum.elim_inl] at h
    cases h
  subst hp
  try dsimp only [Sum.elim_inr] at h
  refine r_istore G (lv' := [(0, .ref b), (1, .ref (ad 55)), (2, .ref (bd 67)), (3, .ref qo), (4, .int i), (5, .int r2)]) [1, 2, 3, 4, 5, 0] rfl (by decide) dL_law_480 ?_
  refine r_aload_n G 2 rfl rfl dL_law_482 ?_
  refine r_aload_n G 0 rfl rfl dL_law_483 ?_
  refine r_iload G 4 rfl dL_law_484 ?_
  refine r_iconst G (v := 1) (by decide) dL_law_486 ?_
  refine r_iadd G dL_law_487 ?_
  obtain ⟨g3, h⟩ := og h
  refine r_sld G hX hbl hbA (vin_in g3) dL_law_488 ?_
  obtain ⟨o4, e4, h⟩ := ob h
  refine e_callVi G (fun x9 : mS => (s2.1, x9, s2.2.2)) (fun x9 => lW_m ad bd κ qo _ x9 _) rfl [.int (ys (i + 1).toNatClampNeg)] (qX8_size hE (ys (i + 1).toNatClampNeg) _ e4) ⟨146, 8, _, _, rfl, (lw_MO ad bd κ qo _), rfl⟩ gL_law_X8_size rfl hdX8_size ⟨Nat.le_of_ble_eq_true rfl, Nat.le_of_ble_eq_true rfl⟩ (Nat.le_of_ble_eq_true rfl) rfl ⟨by first | exact hcC | exact Nat.le_trans (Nat.le_add_right _ 8) hcC, by first | exact hcS | exact Nat.le_trans (Nat.le_add_right _ 40) hcS⟩ rfl rfl dL_law_489 (fun r4 s4 hp hn4 => ?_)
  subst hp
  try dsimp only at h
  refine r_istore G (lv' := [(0, .ref b), (1, .ref (ad 55)), (2, .ref (bd 67)), (3, .ref qo), (4, .int i), (5, .int r2), (6, .int r4)]) [1, 2, 3, 4, 5, 6, 0] rfl (by decide) dL_law_492 ?_
  refine r_aload_n G 2 rfl rfl dL_law_494 ?_
  refine e_callVi G (fun x9 : mS => (s2.1, x9, s2.2.2)) (fun x9 => lW_m ad bd κ qo _ x9 _) rfl [] (qX8_thrown hE _) ⟨146, 8, _, _, rfl, (lw_MO ad bd κ qo _), rfl⟩ gL_law_X8_thrown rfl hdX8_thrown ⟨Nat.le_of_ble_eq_true rfl, Nat.le_of_ble_eq_true rfl⟩ (Nat.le_of_ble_eq_true rfl) rfl ⟨by first | exact hcC | exact Nat.le_trans (Nat.le_add_right _ 8) hcC, by first | exact hcS | exact Nat.le_trans (Nat.le_add_right _ 40) hcS⟩ rfl rfl dL_law_495 (fun r5 s5 hp hn5 => ?_)
  obtain ⟨rfl, hs⟩ := hp
  have hs := hs.symm
  subst hs
  refine r_iload G 5 rfl dL_law_498 ?_
  refine r_icmp_eq G (tgt := 505) dL_law_500 (by decide) (fun c => ?_) (fun c => ?_)
  · rw [if_pos c] at h
    refine r_iload G 5 rfl dL_law_505 ?_
    refine r_if_ne G (tgt := 522) dL_law_507 (by decide) (fun c => ?_) (fun c => ?_)
    · rw [if_neg c] at h
      refine r_goto G (tgt := 2906) dL_law_522 (by decide) ?_
      refine V.sub (lv' := [(0, .ref b), (1, .ref (ad 55)), (2, .ref (bd 67)), (3, .ref qo), (4, .int i)]) [0, 1, 2, 3, 4] rfl ?_
      have h := Option.some.inj h
      subst h
      exact V.widen (by first | exact Nat.le_refl _ | exact Nat.le_add_right _ _) (by first | exact Nat.le_refl _ | exact Nat.le_add_right _ _) hk
    · rw [if_pos c] at h
      refine r_aload_n G 3 rfl rfl dL_law_510 ?_
      refine r_iconst G (v := 0) (by decide) dL_law_511 ?_
      refine r_outld G dL_law_512 ?_
      refine r_iload G 6 rfl dL_law_513 ?_
      refine r_i2l G dL_law_515 ?_
      refine r_lcmp G dL_law_516 ?_
      refine r_if_eq G (tgt := 522) dL_law_517 (by decide) (fun c => ?_) (fun c => ?_)
      · rw [if_pos c] at h
        refine r_goto G (tgt := 2906) dL_law_522 (by decide) ?_
        refine V.sub (lv' := [(0, .ref b), (1, .ref (ad 55)), (2, .ref (bd 67)), (3, .ref qo), (4, .int i)]) [0, 1, 2, 3, 4] rfl ?_
        have h := Option.some.inj h
        subst h
        exact V.widen (by first | exact Nat.le_refl _ | exact Nat.le_add_right _ _) (by first | exact Nat.le_refl _ | exact Nat.le_add_right _ _) hk
      · rw [if_neg c] at h
        refine r_iconst G (v := 0) (by decide) dL_law_520 ?_
        cases h
  · rw [if_neg c] at h
    refine r_iconst G (v := 0) (by decide) dL_law_503 ?_
    cases h

theorem hdL_sum : yL_sum.cls ≠ "java/lang/invoke/MethodHandle" ∧ yL_sum.cls ≠ "java/lang/invoke/VarHandle" ∧ (parseMethodDescriptor yL_sum.desc).map (fun d => d.parameters.length) = some 3 := by decide +kernel
theorem hdX8_sum : yX8_sum.cls = RX8 ∧ yX8_sum.cls ≠ "java/lang/invoke/MethodHandle" ∧ yX8_sum.cls ≠ "java/lang/invoke/VarHandle" ∧ (parseMethodDescriptor yX8_sum.desc).map (fun d => d.parameters.length) = some 1 := by decide +kernel
set_option maxHeartbeats 4000000 in
set_option maxRecDepth 100000 in
theorem wL_c4 {E : evT} {l : Launch} {D : va_G} {ad bd : Nat → Nat} {qo : Nat} {κ : Nat → ClassId} {kK kV : Nat → Nat} (hE : EvOk E) (hT : TOk E) (hfl : l.stackTraces = false) (hC : COk E) (hSt : SOk E kK kV) {Γ : cxT} (G : Cx (lW ad bd κ qo) D (tyA κ) E l Γ code RL wsL_law 9 room_1) {b L : Nat} {ys : Nat → Int32} (hX : va_X b L ys (xs Γ) (xH Γ)) (hbl : b < (xH Γ).size) (hbA : ¬ xA Γ b) {C S : Nat} (hcC : C + 8 ≤ room_1.cells) (hcS : S + 40 ≤ room_1.slots) (i : Int32) (s : lS) {o : lS} (hk : V (lW ad bd κ qo) D Γ o (C + 8) (S + 40) 2906 [(0, .ref b), (1, .ref (ad 55)), (2, .ref (bd 67)), (3, .ref qo), (4, .int i)] []) (h : fL_c4 L ys i s = some o) : V (lW ad bd κ qo) D Γ s C S 525 [(0, .ref b), (1, .ref (ad 55)), (2, .ref (bd 67)), (3, .ref qo), (4, .int i)] [] := by
  rw [fL_c4] at h
  refine r_aload_n G 1 rfl rfl dL_law_525 ?_
  refine r_aload_n G 0 rfl rfl dL_law_526 ?_
  refine r_iload G 4 rfl dL_law_527 ?_
  refine r_iconst G (v := 1) (by decide) dL_law_529 ?_
  refine r_iadd G dL_law_530 ?_
  obtain ⟨g1, h⟩ := og h
  refine r_sld G hX hbl hbA (vin_in g1) dL_law_531 ?_
  refine r_aload_n G 3 rfl rfl dL_law_532 ?_
  obtain ⟨o2, e2, h⟩ := ob h
  refine r_callSixH G [.ref (ad 55), .int (ys (i + 1).toNatClampNeg), .ref qo] (qL_sum hE hT hfl hC (ys (i + 1).toNatClampNeg) _ e2) gL_law_L_sum rfl hdL_sum ⟨Nat.le_of_ble_eq_true rfl, Nat.le_of_ble_eq_true rfl⟩ (Nat.le_of_ble_eq_true rfl) rfl ⟨by first | exact hcC | exact Nat.le_trans (Nat.le_add_right _ 8) hcC, by first | exact hcS | exact Nat.le_trans (Nat.le_add_right _ 40) hcS⟩ rfl rfl dL_law_533 (fun k9 st9 hp9 => ?_) (fun r2 s2 hp hn2 => ?_)
  · subst hp9
    try dsimp only [Sum.elim_inl] at h
    cases h
  subst hp
  try dsimp only [Sum.elim_inr] at h
  refine r_istore G (lv' := [(0, .ref b), (1, .ref (ad 55)), (2, .ref (bd 67)), (3, .ref qo), (4, .int i), (5, .int r2)]) [1, 2, 3, 4, 5, 0] rfl (by decide) dL_law_536 ?_
  refine r_aload_n G 2 rfl rfl dL_law_538 ?_
  refine r_aload_n G 0 rfl rfl dL_law_539 ?_
  refine r_iload G 4 rfl dL_law_540 ?_
  refine r_iconst G (v := 1) (by decide) dL_law_542 ?_
  refine r_iadd G dL_law_543 ?_
  obtain ⟨g3, h⟩ := og h
  refine r_sld G hX hbl hbA (vin_in g3) dL_law_544 ?_
  obtain ⟨o4, e4, h⟩ := ob h
  refine e_callVi G (fun x9 : mS => (s2.1, x9, s2.2.2)) (fun x9 => lW_m ad bd κ qo _ x9 _) rfl [.int (ys (i + 1).toNatClampNeg)] (qX8_sum hE (ys (i + 1).toNatClampNeg) _ e4) ⟨146, 8, _, _, rfl, (lw_MO ad bd κ qo _), rfl⟩ gL_law_X8_sum rfl hdX8_sum ⟨Nat.le_of_ble_eq_true rfl, Nat.le_of_ble_eq_true rfl⟩ (Nat.le_of_ble_eq_true rfl) rfl ⟨by first | exact hcC | exact Nat.le_trans (Nat.le_add_right _ 8) hcC, by first | exact hcS | exact Nat.le_trans (Nat.le_add_right _ 40) hcS⟩ rfl rfl dL_law_545 (fun r4 s4 hp hn4 => ?_)
  subst hp
  try dsimp only at h
  refine r_istore G (lv' := [(0, .ref b), (1, .ref (ad 55)), (2, .ref (bd 67)), (3, .ref qo), (4, .int i), (5, .int r2), (6, .int r4)]) [1, 2, 3, 4, 5, 6, 0] rfl (by decide) dL_law_548 ?_
  refine r_aload_n G 2 rfl rfl dL_law_550 ?_
  refine e_callVi G (fun x9 : mS => (s2.1, x9, s2.2.2)) (fun x9 => lW_m ad bd κ qo _ x9 _) rfl [] (qX8_thrown hE _) ⟨146, 8, _, _, rfl, (lw_MO ad bd κ qo _), rfl⟩ gL_law_X8_thrown rfl hdX8_thrown ⟨Nat.le_of_ble_eq_true rfl, Nat.le_of_ble_eq_true rfl⟩ (Nat.le_of_ble_eq_true rfl) rfl ⟨by first | exact hcC | exact Nat.le_trans (Nat.le_add_right _ 8) hcC, by first | exact hcS | exact Nat.le_trans (Nat.le_add_right _ 40) hcS⟩ rfl rfl dL_law_551 (fun r5 s5 hp hn5 => ?_)
  obtain ⟨rfl, hs⟩ := hp
  have hs := hs.symm
  subst hs
  refine r_iload G 5 rfl dL_law_554 ?_
  refine r_icmp_eq G (tgt := 561) dL_law_556 (by decide) (fun c => ?_) (fun c => ?_)
  · rw [if_pos c] at h
    refine r_iload G 5 rfl dL_law_561 ?_
    refine r_if_ne G (tgt := 578) dL_law_563 (by decide) (fun c => ?_) (fun c => ?_)
    · rw [if_neg c] at h
      refine r_goto G (tgt := 2906) dL_law_578 (by decide) ?_
      refine V.sub (lv' := [(0, .ref b), (1, .ref (ad 55)), (2, .ref (bd 67)), (3, .ref qo), (4, .int i)]) [0, 1, 2, 3, 4] rfl ?_
      have h := Option.some.inj h
      subst h
      exact V.widen (by first | exact Nat.le_refl _ | exact Nat.le_add_right _ _) (by first | exact Nat.le_refl _ | exact Nat.le_add_right _ _) hk
    · rw [if_pos c] at h
      refine r_aload_n G 3 rfl rfl dL_law_566 ?_
      refine r_iconst G (v := 0) (by decide) dL_law_567 ?_
      refine r_outld G dL_law_568 ?_
      refine r_iload G 6 rfl dL_law_569 ?_
      refine r_i2l G dL_law_571 ?_
      refine r_lcmp G dL_law_572 ?_
      refine r_if_eq G (tgt := 578) dL_law_573 (by decide) (fun c => ?_) (fun c => ?_)
      · rw [if_pos c] at h
        refine r_goto G (tgt := 2906) dL_law_578 (by decide) ?_
        refine V.sub (lv' := [(0, .ref b), (1, .ref (ad 55)), (2, .ref (bd 67)), (3, .ref qo), (4, .int i)]) [0, 1, 2, 3, 4] rfl ?_
        have h := Option.some.inj h
        subst h
        exact V.widen (by first | exact Nat.le_refl _ | exact Nat.le_add_right _ _) (by first | exact Nat.le_refl _ | exact Nat.le_add_right _ _) hk
      · rw [if_neg c] at h
        refine r_iconst G (v := 0) (by decide) dL_law_576 ?_
        cases h
  · rw [if_neg c] at h
    refine r_iconst G (v := 0) (by decide) dL_law_559 ?_
    cases h

theorem hdL_clear : yL_clear.cls ≠ "java/lang/invoke/MethodHandle" ∧ yL_clear.cls ≠ "java/lang/invoke/VarHandle" ∧ (parseMethodDescriptor yL_clear.desc).map (fun d => d.parameters.length) = some 3 := by decide +kernel
theorem hdX8_clear : yX8_clear.cls = RX8 ∧ yX8_clear.cls ≠ "java/lang/invoke/MethodHandle" ∧ yX8_clear.cls ≠ "java/lang/invoke/VarHandle" ∧ (parseMethodDescriptor yX8_clear.desc).map (fun d => d.parameters.length) = some 1 := by decide +kernel
set_option maxHeartbeats 4000000 in
set_option maxRecDepth 100000 in
theorem wL_c5 {E : evT} {l : Launch} {D : va_G} {ad bd : Nat → Nat} {qo : Nat} {κ : Nat → ClassId} {kK kV : Nat → Nat} (hE : EvOk E) (hT : TOk E) (hfl : l.stackTraces = false) (hC : COk E) (hSt : SOk E kK kV) {Γ : cxT} (G : Cx (lW ad bd κ qo) D (tyA κ) E l Γ code RL wsL_law 9 room_1) {b L : Nat} {ys : Nat → Int32} (hX : va_X b L ys (xs Γ) (xH Γ)) (hbl : b < (xH Γ).size) (hbA : ¬ xA Γ b) {C S : Nat} (hcC : C + 8 ≤ room_1.cells) (hcS : S + 40 ≤ room_1.slots) (i : Int32) (s : lS) {o : lS} (hk : V (lW ad bd κ qo) D Γ o (C + 8) (S + 40) 2906 [(0, .ref b), (1, .ref (ad 55)), (2, .ref (bd 67)), (3, .ref qo), (4, .int i)] []) (h : fL_c5 L ys i s = some o) : V (lW ad bd κ qo) D Γ s C S 581 [(0, .ref b), (1, .ref (ad 55)), (2, .ref (bd 67)), (3, .ref qo), (4, .int i)] [] := by
  rw [fL_c5] at h
  refine r_aload_n G 1 rfl rfl dL_law_581 ?_
  refine r_aload_n G 0 rfl rfl dL_law_582 ?_
  refine r_iload G 4 rfl dL_law_583 ?_
  refine r_iconst G (v := 1) (by decide) dL_law_585 ?_
  refine r_iadd G dL_law_586 ?_
  obtain ⟨g1, h⟩ := og h
  refine r_sld G hX hbl hbA (vin_in g1) dL_law_587 ?_
  refine r_aload_n G 3 rfl rfl dL_law_588 ?_
  obtain ⟨o2, e2, h⟩ := ob h
  refine r_callSixH G [.ref (ad 55), .int (ys (i + 1).toNatClampNeg), .ref qo] (qL_clear hE hT hfl hC (ys (i + 1).toNatClampNeg) _ e2) gL_law_L_clear rfl hdL_clear ⟨Nat.le_of_ble_eq_true rfl, Nat.le_of_ble_eq_true rfl⟩ (Nat.le_of_ble_eq_true rfl) rfl ⟨by first | exact hcC | exact Nat.le_trans (Nat.le_add_right _ 8) hcC, by first | exact hcS | exact Nat.le_trans (Nat.le_add_right _ 40) hcS⟩ rfl rfl dL_law_589 (fun k9 st9 hp9 => ?_) (fun r2 s2 hp hn2 => ?_)
  · subst hp9
    try dsimp only [Sum.elim_inl] at h
    cases h
  subst hp
  try dsimp only [Sum.elim_inr] at h
  refine r_istore G (lv' := [(0, .ref b), (1, .ref (ad 55)), (2, .ref (bd 67)), (3, .ref qo), (4, .int i), (5, .int r2)]) [1, 2, 3, 4, 5, 0] rfl (by decide) dL_law_592 ?_
  refine r_aload_n G 2 rfl rfl dL_law_594 ?_
  refine r_aload_n G 0 rfl rfl dL_law_595 ?_
  refine r_iload G 4 rfl dL_law_596 ?_
  refine r_iconst G (v := 1) (by decide) dL_law_598 ?_
  refine r_iadd G dL_law_599 ?_
  obtain ⟨g3, h⟩ := og h
  refine r_sld G hX hbl hbA (vin_in g3) dL_law_600 ?_
  obtain ⟨o4, e4, h⟩ := ob h
  refine e_callVi G (fun x9 : mS => (s2.1, x9, s2.2.2)) (fun x9 => lW_m ad bd κ qo _ x9 _) rfl [.int (ys (i + 1).toNatClampNeg)] (qX8_clear hE (ys (i + 1).toNatClampNeg) _ e4) ⟨146, 8, _, _, rfl, (lw_MO ad bd κ qo _), rfl⟩ gL_law_X8_clear rfl hdX8_clear ⟨Nat.le_of_ble_eq_true rfl, Nat.le_of_ble_eq_true rfl⟩ (Nat.le_of_ble_eq_true rfl) rfl ⟨by first | exact hcC | exact Nat.le_trans (Nat.le_add_right _ 8) hcC, by first | exact hcS | exact Nat.le_trans (Nat.le_add_right _ 40) hcS⟩ rfl rfl dL_law_601 (fun r4 s4 hp hn4 => ?_)
  subst hp
  try dsimp only at h
  refine r_istore G (lv' := [(0, .ref b), (1, .ref (ad 55)), (2, .ref (bd 67)), (3, .ref qo), (4, .int i), (5, .int r2), (6, .int r4)]) [1, 2, 3, 4, 5, 6, 0] rfl (by decide) dL_law_604 ?_
  refine r_aload_n G 2 rfl rfl dL_law_606 ?_
  refine e_callVi G (fun x9 : mS => (s2.1, x9, s2.2.2)) (fun x9 => lW_m ad bd κ qo _ x9 _) rfl [] (qX8_thrown hE _) ⟨146, 8, _, _, rfl, (lw_MO ad bd κ qo _), rfl⟩ gL_law_X8_thrown rfl hdX8_thrown ⟨Nat.le_of_ble_eq_true rfl, Nat.le_of_ble_eq_true rfl⟩ (Nat.le_of_ble_eq_true rfl) rfl ⟨by first | exact hcC | exact Nat.le_trans (Nat.le_add_right _ 8) hcC, by first | exact hcS | exact Nat.le_trans (Nat.le_add_right _ 40) hcS⟩ rfl rfl dL_law_607 (fun r5 s5 hp hn5 => ?_)
  obtain ⟨rfl, hs⟩ := hp
  have hs := hs.symm
  subst hs
  refine r_iload G 5 rfl dL_law_610 ?_
  refine r_icmp_eq G (tgt := 617) dL_law_612 (by decide) (fun c => ?_) (fun c => ?_)
  · rw [if_pos c] at h
    refine r_iload G 5 rfl dL_law_617 ?_
    refine r_if_ne G (tgt := 634) dL_law_619 (by decide) (fun c => ?_) (fun c => ?_)
    · rw [if_neg c] at h
      refine r_goto G (tgt := 2906) dL_law_634 (by decide) ?_
      refine V.sub (lv' := [(0, .ref b), (1, .ref (ad 55)), (2, .ref (bd 67)), (3, .ref qo), (4, .int i)]) [0, 1, 2, 3, 4] rfl ?_
      have h := Option.some.inj h
      subst h
      exact V.widen (by first | exact Nat.le_refl _ | exact Nat.le_add_right _ _) (by first | exact Nat.le_refl _ | exact Nat.le_add_right _ _) hk
    · rw [if_pos c] at h
      refine r_aload_n G 3 rfl rfl dL_law_622 ?_
      refine r_iconst G (v := 0) (by decide) dL_law_623 ?_
      refine r_outld G dL_law_624 ?_
      refine r_iload G 6 rfl dL_law_625 ?_
      refine r_i2l G dL_law_627 ?_
      refine r_lcmp G dL_law_628 ?_
      refine r_if_eq G (tgt := 634) dL_law_629 (by decide) (fun c => ?_) (fun c => ?_)
      · rw [if_pos c] at h
        refine r_goto G (tgt := 2906) dL_law_634 (by decide) ?_
        refine V.sub (lv' := [(0, .ref b), (1, .ref (ad 55)), (2, .ref (bd 67)), (3, .ref qo), (4, .int i)]) [0, 1, 2, 3, 4] rfl ?_
        have h := Option.some.inj h
        subst h
        exact V.widen (by first | exact Nat.le_refl _ | exact Nat.le_add_right _ _) (by first | exact Nat.le_refl _ | exact Nat.le_add_right _ _) hk
      · rw [if_neg c] at h
        refine r_iconst G (v := 0) (by decide) dL_law_632 ?_
        cases h
  · rw [if_neg c] at h
    refine r_iconst G (v := 0) (by decide) dL_law_615 ?_
    cases h

theorem hdL_fill : yL_fill.cls ≠ "java/lang/invoke/MethodHandle" ∧ yL_fill.cls ≠ "java/lang/invoke/VarHandle" ∧ (parseMethodDescriptor yL_fill.desc).map (fun d => d.parameters.length) = some 6 := by decide +kernel
theorem hdX8_fill : yX8_fill.cls = RX8 ∧ yX8_fill.cls ≠ "java/lang/invoke/MethodHandle" ∧ yX8_fill.cls ≠ "java/lang/invoke/VarHandle" ∧ (parseMethodDescriptor yX8_fill.desc).map (fun d => d.parameters.length) = some 4 := by decide +kernel
set_option maxHeartbeats 4000000 in
set_option maxRecDepth 100000 in
theorem wL_c6 {E : evT} {l : Launch} {D : va_G} {ad bd : Nat → Nat} {qo : Nat} {κ : Nat → ClassId} {kK kV : Nat → Nat} (hE : EvOk E) (hT : TOk E) (hfl : l.stackTraces = false) (hC : COk E) (hSt : SOk E kK kV) {Γ : cxT} (G : Cx (lW ad bd κ qo) D (tyA κ) E l Γ code RL wsL_law 9 room_1) {b L : Nat} {ys : Nat → Int32} (hX : va_X b L ys (xs Γ) (xH Γ)) (hbl : b < (xH Γ).size) (hbA : ¬ xA Γ b) {C S : Nat} (hcC : C + 8 ≤ room_1.cells) (hcS : S + 40 ≤ room_1.slots) (i : Int32) (s : lS) {o : lS} (hk : V (lW ad bd κ qo) D Γ o (C + 8) (S + 40) 2906 [(0, .ref b), (1, .ref (ad 55)), (2, .ref (bd 67)), (3, .ref qo), (4, .int i)] []) (h : fL_c6 L ys i s = some o) : V (lW ad bd κ qo) D Γ s C S 637 [(0, .ref b), (1, .ref (ad 55)), (2, .ref (bd 67)), (3, .ref qo), (4, .int i)] [] := by
  rw [fL_c6] at h
  refine r_aload_n G 1 rfl rfl dL_law_637 ?_
  refine r_aload_n G 0 rfl rfl dL_law_638 ?_
  refine r_iload G 4 rfl dL_law_639 ?_
  refine r_iconst G (v := 1) (by decide) dL_law_641 ?_
  refine r_iadd G dL_law_642 ?_
  obtain ⟨g1, h⟩ := og h
  refine r_sld G hX hbl hbA (vin_in g1) dL_law_643 ?_
  refine r_aload_n G 0 rfl rfl dL_law_644 ?_
  refine r_iload G 4 rfl dL_law_645 ?_
  refine r_iconst G (v := 2) (by decide) dL_law_647 ?_
  refine r_iadd G dL_law_648 ?_
  obtain ⟨g2, h⟩ := og h
  refine r_sld G hX hbl hbA (vin_in g2) dL_law_649 ?_
  refine r_aload_n G 0 rfl rfl dL_law_650 ?_
  refine r_iload G 4 rfl dL_law_651 ?_
  refine r_iconst G (v := 3) (by decide) dL_law_653 ?_
  refine r_iadd G dL_law_654 ?_
  obtain ⟨g3, h⟩ := og h
  refine r_sld G hX hbl hbA (vin_in g3) dL_law_655 ?_
  refine r_aload_n G 0 rfl rfl dL_law_656 ?_
  refine r_iload G 4 rfl dL_law_657 ?_
  refine r_iconst G (v := 4) (by decide) dL_law_659 ?_
  refine r_iadd G dL_law_660 ?_
  obtain ⟨g4, h⟩ := og h
  refine r_sld G hX hbl hbA (vin_in g4) dL_law_661 ?_
  refine r_aload_n G 3 rfl rfl dL_law_662 ?_
  obtain ⟨o5, e5, h⟩ := ob h
  refine r_callSixH G [.ref (ad 55), .int (ys (i + 1).toNatClampNeg), .int (ys (i + 2).toNatClampNeg), .int (ys (i + 3).toNatClampNeg), .int (ys (i + 4).toNatClampNeg), .ref qo] (qL_fill hE hT hfl hC (ys (i + 1).toNatClampNeg) (ys (i + 2).toNatClampNeg) (ys (i + 3).toNatClampNeg) (ys (i + 4).toNatClampNeg) _ e5) gL_law_L_fill rfl hdL_fill ⟨Nat.le_of_ble_eq_true rfl, Nat.le_of_ble_eq_true rfl⟩ (Nat.le_of_ble_eq_true rfl) rfl ⟨by first | exact hcC | exact Nat.le_trans (Nat.le_add_right _ 8) hcC, by first | exact hcS | exact Nat.le_trans (Nat.le_add_right _ 40) hcS⟩ rfl rfl dL_law_663 (fun k9 st9 hp9 => ?_) (fun r5 s5 hp hn5 => ?_)
  · subst hp9
    try dsimp only [Sum.elim_inl] at h
    cases h
  subst hp
  try dsimp only [Sum.elim_inr] at h
  refine r_istore G (lv' := [(0, .ref b), (1, .ref (ad 55)), (2, .ref (bd 67)), (3, .ref qo), (4, .int i), (5, .int r5)]) [1, 2, 3, 4, 5, 0] rfl (by decide) dL_law_666 ?_
  refine r_aload_n G 2 rfl rfl dL_law_668 ?_
  refine r_aload_n G 0 rfl rfl dL_law_669 ?_
  refine r_iload G 4 rfl dL_law_670 ?_
  refine r_iconst G (v := 1) (by decide) dL_law_672 ?_
  refine r_iadd G dL_law_673 ?_
  obtain ⟨g6, h⟩ := og h
  refine r_sld G hX hbl hbA (vin_in g6) dL_law_674 ?_
  refine r_aload_n G 0 rfl rfl dL_law_675 ?_
  refine r_iload G 4 rfl dL_law_676 ?_
  refine r_iconst G (v := 2) (by decide) dL_law_678 ?_
  refine r_iadd G dL_law_679 ?_
  obtain ⟨g7, h⟩ := og h
  refine r_sld G hX hbl hbA (vin_in g7) dL_law_680 ?_
  refine r_aload_n G 0 rfl rfl dL_law_681 ?_
  refine r_iload G 4 rfl dL_law_682 ?_
  refine r_iconst G (v := 3) (by decide) dL_law_684 ?_
  refine r_iadd G dL_law_685 ?_
  obtain ⟨g8, h⟩ := og h
  refine r_sld G hX hbl hbA (vin_in g8) dL_law_686 ?_
  refine r_aload_n G 0 rfl rfl dL_law_687 ?_
  refine r_iload G 4 rfl dL_law_688 ?_
  refine r_iconst G (v := 4) (by decide) dL_law_690 ?_
  refine r_iadd G dL_law_691 ?_
  obtain ⟨g9, h⟩ := og h
  refine r_sld G hX hbl hbA (vin_in g9) dL_law_692 ?_
  obtain ⟨o10, e10, h⟩ := ob h
  refine e_callVi G (fun x9 : mS => (s5.1, x9, s5.2.2)) (fun x9 => lW_m ad bd κ qo _ x9 _) rfl [.int (ys (i + 1).toNatClampNeg), .int (ys (i + 2).toNatClampNeg), .int (ys (i + 3).toNatClampNeg), .int (ys (i + 4).toNatClampNeg)] (qX8_fill hE (ys (i + 1).toNatClampNeg) (ys (i + 2).toNatClampNeg) (ys (i + 3).toNatClampNeg) (ys (i + 4).toNatClampNeg) _ e10) ⟨146, 8, _, _, rfl, (lw_MO ad bd κ qo _), rfl⟩ gL_law_X8_fill rfl hdX8_fill ⟨Nat.le_of_ble_eq_true rfl, Nat.le_of_ble_eq_true rfl⟩ (Nat.le_of_ble_eq_true rfl) rfl ⟨by first | exact hcC | exact Nat.le_trans (Nat.le_add_right _ 8) hcC, by first | exact hcS | exact Nat.le_trans (Nat.le_add_right _ 40) hcS⟩ rfl rfl dL_law_693 (fun r10 s10 hp hn10 => ?_)
  subst hp
  try dsimp only at h
  refine r_istore G (lv' := [(0, .ref b), (1, .ref (ad 55)), (2, .ref (bd 67)), (3, .ref qo), (4, .int i), (5, .int r5), (6, .int r10)]) [1, 2, 3, 4, 5, 6, 0] rfl (by decide) dL_law_696 ?_
  refine r_aload_n G 2 rfl rfl dL_law_698 ?_
  refine e_callVi G (fun x9 : mS => (s5.1, x9, s5.2.2)) (fun x9 => lW_m ad bd κ qo _ x9 _) rfl [] (qX8_thrown hE _) ⟨146, 8, _, _, rfl, (lw_MO ad bd κ qo _), rfl⟩ gL_law_X8_thrown rfl hdX8_thrown ⟨Nat.le_of_ble_eq_true rfl, Nat.le_of_ble_eq_true rfl⟩ (Nat.le_of_ble_eq_true rfl) rfl ⟨by first | exact hcC | exact Nat.le_trans (Nat.le_add_right _ 8) hcC, by first | exact hcS | exact Nat.le_trans (Nat.le_add_right _ 40) hcS⟩ rfl rfl dL_law_699 (fun r11 s11 hp hn11 => ?_)
  obtain ⟨rfl, hs⟩ := hp
  have hs := hs.symm
  subst hs
  refine r_iload G 5 rfl dL_law_702 ?_
  refine r_icmp_eq G (tgt := 709) dL_law_704 (by decide) (fun c => ?_) (fun c => ?_)
  · rw [if_pos c] at h
    refine r_iload G 5 rfl dL_law_709 ?_
    refine r_if_ne G (tgt := 726) dL_law_711 (by decide) (fun c => ?_) (fun c => ?_)
    · rw [if_neg c] at h
      refine r_goto G (tgt := 2906) dL_law_726 (by decide) ?_
      refine V.sub (lv' := [(0, .ref b), (1, .ref (ad 55)), (2, .ref (bd 67)), (3, .ref qo), (4, .int i)]) [0, 1, 2, 3, 4] rfl ?_
      have h := Option.some.inj h
      subst h
      exact V.widen (by first | exact Nat.le_refl _ | exact Nat.le_add_right _ _) (by first | exact Nat.le_refl _ | exact Nat.le_add_right _ _) hk
    · rw [if_pos c] at h
      refine r_aload_n G 3 rfl rfl dL_law_714 ?_
      refine r_iconst G (v := 0) (by decide) dL_law_715 ?_
      refine r_outld G dL_law_716 ?_
      refine r_iload G 6 rfl dL_law_717 ?_
      refine r_i2l G dL_law_719 ?_
      refine r_lcmp G dL_law_720 ?_
      refine r_if_eq G (tgt := 726) dL_law_721 (by decide) (fun c => ?_) (fun c => ?_)
      · rw [if_pos c] at h
        refine r_goto G (tgt := 2906) dL_law_726 (by decide) ?_
        refine V.sub (lv' := [(0, .ref b), (1, .ref (ad 55)), (2, .ref (bd 67)), (3, .ref qo), (4, .int i)]) [0, 1, 2, 3, 4] rfl ?_
        have h := Option.some.inj h
        subst h
        exact V.widen (by first | exact Nat.le_refl _ | exact Nat.le_add_right _ _) (by first | exact Nat.le_refl _ | exact Nat.le_add_right _ _) hk
      · rw [if_neg c] at h
        refine r_iconst G (v := 0) (by decide) dL_law_724 ?_
        cases h
  · rw [if_neg c] at h
    refine r_iconst G (v := 0) (by decide) dL_law_707 ?_
    cases h

theorem hdL_memberAt : yL_memberAt.cls ≠ "java/lang/invoke/MethodHandle" ∧ yL_memberAt.cls ≠ "java/lang/invoke/VarHandle" ∧ (parseMethodDescriptor yL_memberAt.desc).map (fun d => d.parameters.length) = some 4 := by decide +kernel
theorem hdX8_memberAt : yX8_memberAt.cls = RX8 ∧ yX8_memberAt.cls ≠ "java/lang/invoke/MethodHandle" ∧ yX8_memberAt.cls ≠ "java/lang/invoke/VarHandle" ∧ (parseMethodDescriptor yX8_memberAt.desc).map (fun d => d.parameters.length) = some 2 := by decide +kernel
set_option maxHeartbeats 4000000 in
set_option maxRecDepth 100000 in
theorem wL_c7 {E : evT} {l : Launch} {D : va_G} {ad bd : Nat → Nat} {qo : Nat} {κ : Nat → ClassId} {kK kV : Nat → Nat} (hE : EvOk E) (hT : TOk E) (hfl : l.stackTraces = false) (hC : COk E) (hSt : SOk E kK kV) {Γ : cxT} (G : Cx (lW ad bd κ qo) D (tyA κ) E l Γ code RL wsL_law 9 room_1) {b L : Nat} {ys : Nat → Int32} (hX : va_X b L ys (xs Γ) (xH Γ)) (hbl : b < (xH Γ).size) (hbA : ¬ xA Γ b) {C S : Nat} (hcC : C + 8 ≤ room_1.cells) (hcS : S + 40 ≤ room_1.slots) (i : Int32) (s : lS) {o : lS} (hk : V (lW ad bd κ qo) D Γ o (C + 8) (S + 40) 2906 [(0, .ref b), (1, .ref (ad 55)), (2, .ref (bd 67)), (3, .ref qo), (4, .int i)] []) (h : fL_c7 L ys i s = some o) : V (lW ad bd κ qo) D Γ s C S 729 [(0, .ref b), (1, .ref (ad 55)), (2, .ref (bd 67)), (3, .ref qo), (4, .int i)] [] := by
  rw [fL_c7] at h
  refine r_aload_n G 1 rfl rfl dL_law_729 ?_
  refine r_aload_n G 0 rfl rfl dL_law_730 ?_
  refine r_iload G 4 rfl dL_law_731 ?_
  refine r_iconst G (v := 1) (by decide) dL_law_733 ?_
  refine r_iadd G dL_law_734 ?_
  obtain ⟨g1, h⟩ := og h
  refine r_sld G hX hbl hbA (vin_in g1) dL_law_735 ?_
  refine r_aload_n G 0 rfl rfl dL_law_736 ?_
  refine r_iload G 4 rfl dL_law_737 ?_
  refine r_iconst G (v := 2) (by decide) dL_law_739 ?_
  refine r_iadd G dL_law_740 ?_
  obtain ⟨g2, h⟩ := og h
  refine r_sld G hX hbl hbA (vin_in g2) dL_law_741 ?_
  refine r_aload_n G 3 rfl rfl dL_law_742 ?_
  obtain ⟨o3, e3, h⟩ := ob h
  refine r_callSixH G [.ref (ad 55), .int (ys (i + 1).toNatClampNeg), .int (ys (i + 2).toNatClampNeg), .ref qo] (qL_memberAt hE hT hfl hC (ys (i + 1).toNatClampNeg) (ys (i + 2).toNatClampNeg) _ e3) gL_law_L_memberAt rfl hdL_memberAt ⟨Nat.le_of_ble_eq_true rfl, Nat.le_of_ble_eq_true rfl⟩ (Nat.le_of_ble_eq_true rfl) rfl ⟨by first | exact hcC | exact Nat.le_trans (Nat.le_add_right _ 8) hcC, by first | exact hcS | exact Nat.le_trans (Nat.le_add_right _ 40) hcS⟩ rfl rfl dL_law_743 (fun k9 st9 hp9 => ?_) (fun r3 s3 hp hn3 => ?_)
  · subst hp9
    try dsimp only [Sum.elim_inl] at h
    cases h
  subst hp
  try dsimp only [Sum.elim_inr] at h
  refine r_istore G (lv' := [(0, .ref b), (1, .ref (ad 55)), (2, .ref (bd 67)), (3, .ref qo), (4, .int i), (5, .int r3)]) [1, 2, 3, 4, 5, 0] rfl (by decide) dL_law_746 ?_
  refine r_aload_n G 2 rfl rfl dL_law_748 ?_
  refine r_aload_n G 0 rfl rfl dL_law_749 ?_
  refine r_iload G 4 rfl dL_law_750 ?_
  refine r_iconst G (v := 1) (by decide) dL_law_752 ?_
  refine r_iadd G dL_law_753 ?_
  obtain ⟨g4, h⟩ := og h
  refine r_sld G hX hbl hbA (vin_in g4) dL_law_754 ?_
  refine r_aload_n G 0 rfl rfl dL_law_755 ?_
  refine r_iload G 4 rfl dL_law_756 ?_
  refine r_iconst G (v := 2) (by decide) dL_law_758 ?_
  refine r_iadd G dL_law_759 ?_
  obtain ⟨g5, h⟩ := og h
  refine r_sld G hX hbl hbA (vin_in g5) dL_law_760 ?_
  obtain ⟨o6, e6, h⟩ := ob h
  refine e_callVi G (fun x9 : mS => (s3.1, x9, s3.2.2)) (fun x9 => lW_m ad bd κ qo _ x9 _) rfl [.int (ys (i + 1).toNatClampNeg), .int (ys (i + 2).toNatClampNeg)] (qX8_memberAt hE (ys (i + 1).toNatClampNeg) (ys (i + 2).toNatClampNeg) _ e6) ⟨146, 8, _, _, rfl, (lw_MO ad bd κ qo _), rfl⟩ gL_law_X8_memberAt rfl hdX8_memberAt ⟨Nat.le_of_ble_eq_true rfl, Nat.le_of_ble_eq_true rfl⟩ (Nat.le_of_ble_eq_true rfl) rfl ⟨by first | exact hcC | exact Nat.le_trans (Nat.le_add_right _ 8) hcC, by first | exact hcS | exact Nat.le_trans (Nat.le_add_right _ 40) hcS⟩ rfl rfl dL_law_761 (fun r6 s6 hp hn6 => ?_)
  subst hp
  try dsimp only at h
  refine r_istore G (lv' := [(0, .ref b), (1, .ref (ad 55)), (2, .ref (bd 67)), (3, .ref qo), (4, .int i), (5, .int r3), (6, .int r6)]) [1, 2, 3, 4, 5, 6, 0] rfl (by decide) dL_law_764 ?_
  refine r_aload_n G 2 rfl rfl dL_law_766 ?_
  refine e_callVi G (fun x9 : mS => (s3.1, x9, s3.2.2)) (fun x9 => lW_m ad bd κ qo _ x9 _) rfl [] (qX8_thrown hE _) ⟨146, 8, _, _, rfl, (lw_MO ad bd κ qo _), rfl⟩ gL_law_X8_thrown rfl hdX8_thrown ⟨Nat.le_of_ble_eq_true rfl, Nat.le_of_ble_eq_true rfl⟩ (Nat.le_of_ble_eq_true rfl) rfl ⟨by first | exact hcC | exact Nat.le_trans (Nat.le_add_right _ 8) hcC, by first | exact hcS | exact Nat.le_trans (Nat.le_add_right _ 40) hcS⟩ rfl rfl dL_law_767 (fun r7 s7 hp hn7 => ?_)
  obtain ⟨rfl, hs⟩ := hp
  have hs := hs.symm
  subst hs
  refine r_iload G 5 rfl dL_law_770 ?_
  refine r_icmp_eq G (tgt := 777) dL_law_772 (by decide) (fun c => ?_) (fun c => ?_)
  · rw [if_pos c] at h
    refine r_iload G 5 rfl dL_law_777 ?_
    refine r_if_ne G (tgt := 794) dL_law_779 (by decide) (fun c => ?_) (fun c => ?_)
    · rw [if_neg c] at h
      refine r_goto G (tgt := 2906) dL_law_794 (by decide) ?_
      refine V.sub (lv' := [(0, .ref b), (1, .ref (ad 55)), (2, .ref (bd 67)), (3, .ref qo), (4, .int i)]) [0, 1, 2, 3, 4] rfl ?_
      have h := Option.some.inj h
      subst h
      exact V.widen (by first | exact Nat.le_refl _ | exact Nat.le_add_right _ _) (by first | exact Nat.le_refl _ | exact Nat.le_add_right _ _) hk
    · rw [if_pos c] at h
      refine r_aload_n G 3 rfl rfl dL_law_782 ?_
      refine r_iconst G (v := 0) (by decide) dL_law_783 ?_
      refine r_outld G dL_law_784 ?_
      refine r_iload G 6 rfl dL_law_785 ?_
      refine r_i2l G dL_law_787 ?_
      refine r_lcmp G dL_law_788 ?_
      refine r_if_eq G (tgt := 794) dL_law_789 (by decide) (fun c => ?_) (fun c => ?_)
      · rw [if_pos c] at h
        refine r_goto G (tgt := 2906) dL_law_794 (by decide) ?_
        refine V.sub (lv' := [(0, .ref b), (1, .ref (ad 55)), (2, .ref (bd 67)), (3, .ref qo), (4, .int i)]) [0, 1, 2, 3, 4] rfl ?_
        have h := Option.some.inj h
        subst h
        exact V.widen (by first | exact Nat.le_refl _ | exact Nat.le_add_right _ _) (by first | exact Nat.le_refl _ | exact Nat.le_add_right _ _) hk
      · rw [if_neg c] at h
        refine r_iconst G (v := 0) (by decide) dL_law_792 ?_
        cases h
  · rw [if_neg c] at h
    refine r_iconst G (v := 0) (by decide) dL_law_775 ?_
    cases h
