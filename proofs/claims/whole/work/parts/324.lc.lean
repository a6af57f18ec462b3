theorem hdL_primesWithin : yL_primesWithin.cls ≠ "java/lang/invoke/MethodHandle" ∧ yL_primesWithin.cls ≠ "java/lang/invoke/VarHandle" ∧ (parseMethodDescriptor yL_primesWithin.desc).map (fun d => d.parameters.length) = some 3 := by decide +kernel
theorem hdX8_primesWithin : yX8_primesWithin.cls = RX8 ∧ yX8_primesWithin.cls ≠ "java/lang/invoke/MethodHandle" ∧ yX8_primesWithin.cls ≠ "java/lang/invoke/VarHandle" ∧ (parseMethodDescriptor yX8_primesWithin.desc).map (fun d => d.parameters.length) = some 1 := by decide +kernel
set_option maxHeartbeats 4000000 in
set_option maxRecDepth 100000 in
theorem wL_c32 {E : evT} {l : Launch} {D : va_G} {ad bd : Nat → Nat} {qo : Nat} {κ : Nat → ClassId} {kK kV : Nat → Nat} (hE : EvOk E) (hT : TOk E) (hfl : l.stackTraces = false) (hC : COk E) (hSt : SOk E kK kV) {Γ : cxT} (G : Cx (lW ad bd κ qo) D (tyA κ) E l Γ code RL wsL_law 9 room_1) {b L : Nat} {ys : Nat → Int32} (hX : va_X b L ys (xs Γ) (xH Γ)) (hbl : b < (xH Γ).size) (hbA : ¬ xA Γ b) {C S : Nat} (hcC : C + 8 ≤ room_1.cells) (hcS : S + 40 ≤ room_1.slots) (i : Int32) (s : lS) {o : lS} (hk : V (lW ad bd κ qo) D Γ o (C + 8) (S + 40) 2906 [(0, .ref b), (1, .ref (ad 55)), (2, .ref (bd 67)), (3, .ref qo), (4, .int i)] []) (h : fL_c32 L ys i s = some o) : V (lW ad bd κ qo) D Γ s C S 2128 [(0, .ref b), (1, .ref (ad 55)), (2, .ref (bd 67)), (3, .ref qo), (4, .int i)] [] := by
  rw [fL_c32] at h
  refine r_aload_n G 1 rfl rfl dL_law_2128 ?_
  refine r_aload_n G 0 rfl rfl dL_law_2129 ?_
  refine r_iload G 4 rfl dL_law_2130 ?_
  refine r_iconst G (v := 1) (by decide) dL_law_2132 ?_
  refine r_iadd G dL_law_2133 ?_
  obtain ⟨g1, h⟩ := og h
  refine r_sld G hX hbl hbA (vin_in g1) dL_law_2134 ?_
  refine r_aload_n G 3 rfl rfl dL_law_2135 ?_
  obtain ⟨o2, e2, h⟩ := ob h
  refine r_callSixH G [.ref (ad 55), .int (ys (i + 1).toNatClampNeg), .ref qo] (qL_primesWithin hE hT hfl hC (ys (i + 1).toNatClampNeg) _ e2) gL_law_L_primesWithin rfl hdL_primesWithin ⟨Nat.le_of_ble_eq_true rfl, Nat.le_of_ble_eq_true rfl⟩ (Nat.le_of_ble_eq_true rfl) rfl ⟨by first | exact hcC | exact Nat.le_trans (Nat.le_add_right _ 8) hcC, by first | exact hcS | exact Nat.le_trans (Nat.le_add_right _ 40) hcS⟩ rfl rfl dL_law_2136 (fun k9 st9 hp9 => ?_) (fun r2 s2 hp hn2 => ?_)
  · subst hp9
    try dsimp only [Sum.elim_inl] at h
    cases h
  subst hp
  try dsimp only [Sum.elim_inr] at h
  refine r_istore G (lv' := [(0, .ref b), (1, .ref (ad 55)), (2, .ref (bd 67)), (3, .ref qo), (4, .int i), (5, .int r2)]) [1, 2, 3, 4, 5, 0] rfl (by decide) dL_law_2139 ?_
  refine r_aload_n G 2 rfl rfl dL_law_2141 ?_
  refine r_aload_n G 0 rfl rfl dL_law_2142 ?_
  refine r_iload G 4 rfl dL_law_2143 ?_
  refine r_iconst G (v := 1) (by decide) dL_law_2145 ?_
  refine r_iadd G dL_law_2146 ?_
  obtain ⟨g3, h⟩ := og h
  refine r_sld G hX hbl hbA (vin_in g3) dL_law_2147 ?_
  obtain ⟨o4, e4, h⟩ := ob h
  refine e_callVi G (fun x9 : mS => (s2.1, x9, s2.2.2)) (fun x9 => lW_m ad bd κ qo _ x9 _) rfl [.int (ys (i + 1).toNatClampNeg)] (qX8_primesWithin hE (ys (i + 1).toNatClampNeg) _ e4) ⟨146, 8, _, _, rfl, (lw_MO ad bd κ qo _), rfl⟩ gL_law_X8_primesWithin rfl hdX8_primesWithin ⟨Nat.le_of_ble_eq_true rfl, Nat.le_of_ble_eq_true rfl⟩ (Nat.le_of_ble_eq_true rfl) rfl ⟨by first | exact hcC | exact Nat.le_trans (Nat.le_add_right _ 8) hcC, by first | exact hcS | exact Nat.le_trans (Nat.le_add_right _ 40) hcS⟩ rfl rfl dL_law_2148 (fun r4 s4 hp hn4 => ?_)
  subst hp
  try dsimp only at h
  refine r_istore G (lv' := [(0, .ref b), (1, .ref (ad 55)), (2, .ref (bd 67)), (3, .ref qo), (4, .int i), (5, .int r2), (6, .int r4)]) [1, 2, 3, 4, 5, 6, 0] rfl (by decide) dL_law_2151 ?_
  refine r_aload_n G 2 rfl rfl dL_law_2153 ?_
  refine e_callVi G (fun x9 : mS => (s2.1, x9, s2.2.2)) (fun x9 => lW_m ad bd κ qo _ x9 _) rfl [] (qX8_thrown hE _) ⟨146, 8, _, _, rfl, (lw_MO ad bd κ qo _), rfl⟩ gL_law_X8_thrown rfl hdX8_thrown ⟨Nat.le_of_ble_eq_true rfl, Nat.le_of_ble_eq_true rfl⟩ (Nat.le_of_ble_eq_true rfl) rfl ⟨by first | exact hcC | exact Nat.le_trans (Nat.le_add_right _ 8) hcC, by first | exact hcS | exact Nat.le_trans (Nat.le_add_right _ 40) hcS⟩ rfl rfl dL_law_2154 (fun r5 s5 hp hn5 => ?_)
  obtain ⟨rfl, hs⟩ := hp
  have hs := hs.symm
  subst hs
  refine r_iload G 5 rfl dL_law_2157 ?_
  refine r_icmp_eq G (tgt := 2164) dL_law_2159 (by decide) (fun c => ?_) (fun c => ?_)
  · rw [if_pos c] at h
    refine r_iload G 5 rfl dL_law_2164 ?_
    refine r_if_ne G (tgt := 2181) dL_law_2166 (by decide) (fun c => ?_) (fun c => ?_)
    · rw [if_neg c] at h
      refine r_goto G (tgt := 2906) dL_law_2181 (by decide) ?_
      refine V.sub (lv' := [(0, .ref b), (1, .ref (ad 55)), (2, .ref (bd 67)), (3, .ref qo), (4, .int i)]) [0, 1, 2, 3, 4] rfl ?_
      have h := Option.some.inj h
      subst h
      exact V.widen (by first | exact Nat.le_refl _ | exact Nat.le_add_right _ _) (by first | exact Nat.le_refl _ | exact Nat.le_add_right _ _) hk
    · rw [if_pos c] at h
      refine r_aload_n G 3 rfl rfl dL_law_2169 ?_
      refine r_iconst G (v := 0) (by decide) dL_law_2170 ?_
      refine r_outld G dL_law_2171 ?_
      refine r_iload G 6 rfl dL_law_2172 ?_
      refine r_i2l G dL_law_2174 ?_
      refine r_lcmp G dL_law_2175 ?_
      refine r_if_eq G (tgt := 2181) dL_law_2176 (by decide) (fun c => ?_) (fun c => ?_)
      · rw [if_pos c] at h
        refine r_goto G (tgt := 2906) dL_law_2181 (by decide) ?_
        refine V.sub (lv' := [(0, .ref b), (1, .ref (ad 55)), (2, .ref (bd 67)), (3, .ref qo), (4, .int i)]) [0, 1, 2, 3, 4] rfl ?_
        have h := Option.some.inj h
        subst h
        exact V.widen (by first | exact Nat.le_refl _ | exact Nat.le_add_right _ _) (by first | exact Nat.le_refl _ | exact Nat.le_add_right _ _) hk
      · rw [if_neg c] at h
        refine r_iconst G (v := 0) (by decide) dL_law_2179 ?_
        cases h
  · rw [if_neg c] at h
    refine r_iconst G (v := 0) (by decide) dL_law_2162 ?_
    cases h

set_option maxRecDepth 20000 in
theorem mL_law_c252 : Cond.constantLong RL 252 (4294967295) ∈ wsL_law := by decide +kernel
theorem hdL_type : yL_type.cls ≠ "java/lang/invoke/MethodHandle" ∧ yL_type.cls ≠ "java/lang/invoke/VarHandle" ∧ (parseMethodDescriptor yL_type.desc).map (fun d => d.parameters.length) = some 3 := by decide +kernel
theorem hdX8_type : yX8_type.cls = RX8 ∧ yX8_type.cls ≠ "java/lang/invoke/MethodHandle" ∧ yX8_type.cls ≠ "java/lang/invoke/VarHandle" ∧ (parseMethodDescriptor yX8_type.desc).map (fun d => d.parameters.length) = some 1 := by decide +kernel
set_option maxHeartbeats 4000000 in
set_option maxRecDepth 100000 in
theorem wL_c33 {E : evT} {l : Launch} {D : va_G} {ad bd : Nat → Nat} {qo : Nat} {κ : Nat → ClassId} {kK kV : Nat → Nat} (hE : EvOk E) (hT : TOk E) (hfl : l.stackTraces = false) (hC : COk E) (hSt : SOk E kK kV) {Γ : cxT} (G : Cx (lW ad bd κ qo) D (tyA κ) E l Γ code RL wsL_law 9 room_1) {b L : Nat} {ys : Nat → Int32} (hX : va_X b L ys (xs Γ) (xH Γ)) (hbl : b < (xH Γ).size) (hbA : ¬ xA Γ b) {C S : Nat} (hcC : C + 8 ≤ room_1.cells) (hcS : S + 40 ≤ room_1.slots) (i : Int32) (s : lS) {o : lS} (hk : V (lW ad bd κ qo) D Γ o (C + 8) (S + 40) 2906 [(0, .ref b), (1, .ref (ad 55)), (2, .ref (bd 67)), (3, .ref qo), (4, .int i)] []) (h : fL_c33 L ys i s = some o) : V (lW ad bd κ qo) D Γ s C S 2184 [(0, .ref b), (1, .ref (ad 55)), (2, .ref (bd 67)), (3, .ref qo), (4, .int i)] [] := by
  rw [fL_c33] at h
  refine r_aload_n G 1 rfl rfl dL_law_2184 ?_
  refine r_aload_n G 0 rfl rfl dL_law_2185 ?_
  refine r_iload G 4 rfl dL_law_2186 ?_
  refine r_iconst G (v := 1) (by decide) dL_law_2188 ?_
  refine r_iadd G dL_law_2189 ?_
  obtain ⟨g1, h⟩ := og h
  refine r_sld G hX hbl hbA (vin_in g1) dL_law_2190 ?_
  refine r_i2l G dL_law_2191 ?_
  refine r_bipush G (v := 32) (by decide) dL_law_2192 ?_
  refine r_lshl G dL_law_2194 ?_
  refine r_aload_n G 0 rfl rfl dL_law_2195 ?_
  refine r_iload G 4 rfl dL_law_2196 ?_
  refine r_iconst G (v := 2) (by decide) dL_law_2198 ?_
  refine r_iadd G dL_law_2199 ?_
  obtain ⟨g2, h⟩ := og h
  refine r_sld G hX hbl hbA (vin_in g2) dL_law_2200 ?_
  refine r_i2l G dL_law_2201 ?_
  refine r_ldc2 G mL_law_c252 dL_law_2202 ?_
  refine r_land G dL_law_2205 ?_
  refine r_lor G dL_law_2206 ?_
  refine r_aload_n G 3 rfl rfl dL_law_2207 ?_
  obtain ⟨o3, e3, h⟩ := ob h
  refine r_callSixH G [.ref (ad 55), .long ((((ys (i + 1).toNatClampNeg).toInt64) <<< ((32 : Int32).toInt64 &&& 63)) ||| (((ys (i + 2).toNatClampNeg).toInt64) &&& 4294967295)), .ref qo] (qL_type hE hT hfl hC ((((ys (i + 1).toNatClampNeg).toInt64) <<< ((32 : Int32).toInt64 &&& 63)) ||| (((ys (i + 2).toNatClampNeg).toInt64) &&& 4294967295)) _ e3) gL_law_L_type rfl hdL_type ⟨Nat.le_of_ble_eq_true rfl, Nat.le_of_ble_eq_true rfl⟩ (Nat.le_of_ble_eq_true rfl) rfl ⟨by first | exact hcC | exact Nat.le_trans (Nat.le_add_right _ 8) hcC, by first | exact hcS | exact Nat.le_trans (Nat.le_add_right _ 40) hcS⟩ rfl rfl dL_law_2208 (fun k9 st9 hp9 => ?_) (fun r3 s3 hp hn3 => ?_)
  · subst hp9
    try dsimp only [Sum.elim_inl] at h
    cases h
  subst hp
  try dsimp only [Sum.elim_inr] at h
  refine r_istore G (lv' := [(0, .ref b), (1, .ref (ad 55)), (2, .ref (bd 67)), (3, .ref qo), (4, .int i), (5, .int r3)]) [1, 2, 3, 4, 5, 0] rfl (by decide) dL_law_2211 ?_
  refine r_aload_n G 2 rfl rfl dL_law_2213 ?_
  refine r_aload_n G 0 rfl rfl dL_law_2214 ?_
  refine r_iload G 4 rfl dL_law_2215 ?_
  refine r_iconst G (v := 1) (by decide) dL_law_2217 ?_
  refine r_iadd G dL_law_2218 ?_
  obtain ⟨g4, h⟩ := og h
  refine r_sld G hX hbl hbA (vin_in g4) dL_law_2219 ?_
  refine r_i2l G dL_law_2220 ?_
  refine r_bipush G (v := 32) (by decide) dL_law_2221 ?_
  refine r_lshl G dL_law_2223 ?_
  refine r_aload_n G 0 rfl rfl dL_law_2224 ?_
  refine r_iload G 4 rfl dL_law_2225 ?_
  refine r_iconst G (v := 2) (by decide) dL_law_2227 ?_
  refine r_iadd G dL_law_2228 ?_
  obtain ⟨g5, h⟩ := og h
  refine r_sld G hX hbl hbA (vin_in g5) dL_law_2229 ?_
  refine r_i2l G dL_law_2230 ?_
  refine r_ldc2 G mL_law_c252 dL_law_2231 ?_
  refine r_land G dL_law_2234 ?_
  refine r_lor G dL_law_2235 ?_
  obtain ⟨o6, e6, h⟩ := ob h
  refine e_callVi G (fun x9 : mS => (s3.1, x9, s3.2.2)) (fun x9 => lW_m ad bd κ qo _ x9 _) rfl [.long ((((ys (i + 1).toNatClampNeg).toInt64) <<< ((32 : Int32).toInt64 &&& 63)) ||| (((ys (i + 2).toNatClampNeg).toInt64) &&& 4294967295))] (qX8_type hE ((((ys (i + 1).toNatClampNeg).toInt64) <<< ((32 : Int32).toInt64 &&& 63)) ||| (((ys (i + 2).toNatClampNeg).toInt64) &&& 4294967295)) _ e6) ⟨146, 8, _, _, rfl, (lw_MO ad bd κ qo _), rfl⟩ gL_law_X8_type rfl hdX8_type ⟨Nat.le_of_ble_eq_true rfl, Nat.le_of_ble_eq_true rfl⟩ (Nat.le_of_ble_eq_true rfl) rfl ⟨by first | exact hcC | exact Nat.le_trans (Nat.le_add_right _ 8) hcC, by first | exact hcS | exact Nat.le_trans (Nat.le_add_right _ 40) hcS⟩ rfl rfl dL_law_2236 (fun r6 s6 hp hn6 => ?_)
  subst hp
  try dsimp only at h
  refine r_istore G (lv' := [(0, .ref b), (1, .ref (ad 55)), (2, .ref (bd 67)), (3, .ref qo), (4, .int i), (5, .int r3), (6, .int r6)]) [1, 2, 3, 4, 5, 6, 0] rfl (by decide) dL_law_2239 ?_
  refine r_aload_n G 2 rfl rfl dL_law_2241 ?_
  refine e_callVi G (fun x9 : mS => (s3.1, x9, s3.2.2)) (fun x9 => lW_m ad bd κ qo _ x9 _) rfl [] (qX8_thrown hE _) ⟨146, 8, _, _, rfl, (lw_MO ad bd κ qo _), rfl⟩ gL_law_X8_thrown rfl hdX8_thrown ⟨Nat.le_of_ble_eq_true rfl, Nat.le_of_ble_eq_true rfl⟩ (Nat.le_of_ble_eq_true rfl) rfl ⟨by first | exact hcC | exact Nat.le_trans (Nat.le_add_right _ 8) hcC, by first | exact hcS | exact Nat.le_trans (Nat.le_add_right _ 40) hcS⟩ rfl rfl dL_law_2242 (fun r7 s7 hp hn7 => ?_)
  obtain ⟨rfl, hs⟩ := hp
  have hs := hs.symm
  subst hs
  refine r_iload G 5 rfl dL_law_2245 ?_
  refine r_icmp_eq G (tgt := 2252) dL_law_2247 (by decide) (fun c => ?_) (fun c => ?_)
  · rw [if_pos c] at h
    refine r_iload G 5 rfl dL_law_2252 ?_
    refine r_if_ne G (tgt := 2269) dL_law_2254 (by decide) (fun c => ?_) (fun c => ?_)
    · rw [if_neg c] at h
      refine r_goto G (tgt := 2906) dL_law_2269 (by decide) ?_
      refine V.sub (lv' := [(0, .ref b), (1, .ref (ad 55)), (2, .ref (bd 67)), (3, .ref qo), (4, .int i)]) [0, 1, 2, 3, 4] rfl ?_
      have h := Option.some.inj h
      subst h
      exact V.widen (by first | exact Nat.le_refl _ | exact Nat.le_add_right _ _) (by first | exact Nat.le_refl _ | exact Nat.le_add_right _ _) hk
    · rw [if_pos c] at h
      refine r_aload_n G 3 rfl rfl dL_law_2257 ?_
      refine r_iconst G (v := 0) (by decide) dL_law_2258 ?_
      refine r_outld G dL_law_2259 ?_
      refine r_iload G 6 rfl dL_law_2260 ?_
      refine r_i2l G dL_law_2262 ?_
      refine r_lcmp G dL_law_2263 ?_
      refine r_if_eq G (tgt := 2269) dL_law_2264 (by decide) (fun c => ?_) (fun c => ?_)
      · rw [if_pos c] at h
        refine r_goto G (tgt := 2906) dL_law_2269 (by decide) ?_
        refine V.sub (lv' := [(0, .ref b), (1, .ref (ad 55)), (2, .ref (bd 67)), (3, .ref qo), (4, .int i)]) [0, 1, 2, 3, 4] rfl ?_
        have h := Option.some.inj h
        subst h
        exact V.widen (by first | exact Nat.le_refl _ | exact Nat.le_add_right _ _) (by first | exact Nat.le_refl _ | exact Nat.le_add_right _ _) hk
      · rw [if_neg c] at h
        refine r_iconst G (v := 0) (by decide) dL_law_2267 ?_
        cases h
  · rw [if_neg c] at h
    refine r_iconst G (v := 0) (by decide) dL_law_2250 ?_
    cases h

theorem hdX7_clearText : yX7_clearText.cls = RX7 ∧ yX7_clearText.cls ≠ "java/lang/invoke/MethodHandle" ∧ yX7_clearText.cls ≠ "java/lang/invoke/VarHandle" ∧ (parseMethodDescriptor yX7_clearText.desc).map (fun d => d.parameters.length) = some 0 := by decide +kernel
theorem hdX8_clearText : yX8_clearText.cls = RX8 ∧ yX8_clearText.cls ≠ "java/lang/invoke/MethodHandle" ∧ yX8_clearText.cls ≠ "java/lang/invoke/VarHandle" ∧ (parseMethodDescriptor yX8_clearText.desc).map (fun d => d.parameters.length) = some 0 := by decide +kernel
set_option maxHeartbeats 4000000 in
set_option maxRecDepth 100000 in
theorem wL_c34 {E : evT} {l : Launch} {D : va_G} {ad bd : Nat → Nat} {qo : Nat} {κ : Nat → ClassId} {kK kV : Nat → Nat} (hE : EvOk E) (hT : TOk E) (hfl : l.stackTraces = false) (hC : COk E) (hSt : SOk E kK kV) {Γ : cxT} (G : Cx (lW ad bd κ qo) D (tyA κ) E l Γ code RL wsL_law 9 room_1) {b L : Nat} {ys : Nat → Int32} (hX : va_X b L ys (xs Γ) (xH Γ)) (hbl : b < (xH Γ).size) (hbA : ¬ xA Γ b) {C S : Nat} (hcC : C + 8 ≤ room_1.cells) (hcS : S + 40 ≤ room_1.slots) (i : Int32) (s : lS) {o : lS} (hk : V (lW ad bd κ qo) D Γ o (C + 8) (S + 40) 2906 [(0, .ref b), (1, .ref (ad 55)), (2, .ref (bd 67)), (3, .ref qo), (4, .int i)] []) (h : fL_c34 L ys i s = some o) : V (lW ad bd κ qo) D Γ s C S 2272 [(0, .ref b), (1, .ref (ad 55)), (2, .ref (bd 67)), (3, .ref qo), (4, .int i)] [] := by
  rw [fL_c34] at h
  refine r_aload_n G 1 rfl rfl dL_law_2272 ?_
  obtain ⟨o1, e1, h⟩ := ob h
  refine e_callVi G (fun x9 : cS => (x9, s.2.1, s.2.2)) (fun x9 => lW_c ad bd κ qo x9 _ _) rfl [] (qX7_clearText hE _ e1) ⟨55, 7, _, _, rfl, (lw_SC ad bd κ qo _), rfl⟩ gL_law_X7_clearText rfl hdX7_clearText ⟨Nat.le_of_ble_eq_true rfl, Nat.le_of_ble_eq_true rfl⟩ (Nat.le_of_ble_eq_true rfl) rfl ⟨by first | exact hcC | exact Nat.le_trans (Nat.le_add_right _ 8) hcC, by first | exact hcS | exact Nat.le_trans (Nat.le_add_right _ 40) hcS⟩ rfl rfl dL_law_2273 (fun r1 s1 hp hn1 => ?_)
  subst hp
  try dsimp only at h
  refine r_aload_n G 2 rfl rfl dL_law_2276 ?_
  obtain ⟨o2, e2, h⟩ := ob h
  refine e_callVi G (fun x9 : mS => (s1, x9, s.2.2)) (fun x9 => lW_m ad bd κ qo _ x9 _) rfl [] (qX8_clearText hE _ e2) ⟨146, 8, _, _, rfl, (lw_MO ad bd κ qo _), rfl⟩ gL_law_X8_clearText rfl hdX8_clearText ⟨Nat.le_of_ble_eq_true rfl, Nat.le_of_ble_eq_true rfl⟩ (Nat.le_of_ble_eq_true rfl) rfl ⟨by first | exact hcC | exact Nat.le_trans (Nat.le_add_right _ 8) hcC, by first | exact hcS | exact Nat.le_trans (Nat.le_add_right _ 40) hcS⟩ rfl rfl dL_law_2277 (fun r2 s2 hp hn2 => ?_)
  subst hp
  try dsimp only at h
  refine r_icmp_eq G (tgt := 2906) dL_law_2280 (by decide) (fun c => ?_) (fun c => ?_)
  · rw [if_pos c] at h
    have h := Option.some.inj h
    subst h
    exact V.widen (by first | exact Nat.le_refl _ | exact Nat.le_add_right _ _) (by first | exact Nat.le_refl _ | exact Nat.le_add_right _ _) hk
  · rw [if_neg c] at h
    refine r_iconst G (v := 0) (by decide) dL_law_2283 ?_
    cases h

theorem hdX7_textLength : yX7_textLength.cls = RX7 ∧ yX7_textLength.cls ≠ "java/lang/invoke/MethodHandle" ∧ yX7_textLength.cls ≠ "java/lang/invoke/VarHandle" ∧ (parseMethodDescriptor yX7_textLength.desc).map (fun d => d.parameters.length) = some 0 := by decide +kernel
theorem hdX8_textLength : yX8_textLength.cls = RX8 ∧ yX8_textLength.cls ≠ "java/lang/invoke/MethodHandle" ∧ yX8_textLength.cls ≠ "java/lang/invoke/VarHandle" ∧ (parseMethodDescriptor yX8_textLength.desc).map (fun d => d.parameters.length) = some 0 := by decide +kernel
set_option maxHeartbeats 4000000 in
set_option maxRecDepth 100000 in
theorem wL_c35 {E : evT} {l : Launch} {D : va_G} {ad bd : Nat → Nat} {qo : Nat} {κ : Nat → ClassId} {kK kV : Nat → Nat} (hE : EvOk E) (hT : TOk E) (hfl : l.stackTraces = false) (hC : COk E) (hSt : SOk E kK kV) {Γ : cxT} (G : Cx (lW ad bd κ qo) D (tyA κ) E l Γ code RL wsL_law 9 room_1) {b L : Nat} {ys : Nat → Int32} (hX : va_X b L ys (xs Γ) (xH Γ)) (hbl : b < (xH Γ).size) (hbA : ¬ xA Γ b) {C S : Nat} (hcC : C + 8 ≤ room_1.cells) (hcS : S + 40 ≤ room_1.slots) (i : Int32) (s : lS) {o : lS} (hk : V (lW ad bd κ qo) D Γ o (C + 8) (S + 40) 2906 [(0, .ref b), (1, .ref (ad 55)), (2, .ref (bd 67)), (3, .ref qo), (4, .int i)] []) (h : fL_c35 L ys i s = some o) : V (lW ad bd κ qo) D Γ s C S 2285 [(0, .ref b), (1, .ref (ad 55)), (2, .ref (bd 67)), (3, .ref qo), (4, .int i)] [] := by
  rw [fL_c35] at h
  refine r_aload_n G 1 rfl rfl dL_law_2285 ?_
  refine e_callVi G (fun x9 : cS => (x9, s.2.1, s.2.2)) (fun x9 => lW_c ad bd κ qo x9 _ _) rfl [] (qX7_textLength hE _) ⟨55, 7, _, _, rfl, (lw_SC ad bd κ qo _), rfl⟩ gL_law_X7_textLength rfl hdX7_textLength ⟨Nat.le_of_ble_eq_true rfl, Nat.le_of_ble_eq_true rfl⟩ (Nat.le_of_ble_eq_true rfl) rfl ⟨by first | exact hcC | exact Nat.le_trans (Nat.le_add_right _ 8) hcC, by first | exact hcS | exact Nat.le_trans (Nat.le_add_right _ 40) hcS⟩ rfl rfl dL_law_2286 (fun r1 s1 hp hn1 => ?_)
  obtain ⟨rfl, hs⟩ := hp
  have hs := hs.symm
  subst hs
  refine r_aload_n G 2 rfl rfl dL_law_2289 ?_
  obtain ⟨o2, e2, h⟩ := ob h
  refine e_callVi G (fun x9 : mS => (s.1, x9, s.2.2)) (fun x9 => lW_m ad bd κ qo _ x9 _) rfl [] (qX8_textLength hE _ e2) ⟨146, 8, _, _, rfl, (lw_MO ad bd κ qo _), rfl⟩ gL_law_X8_textLength rfl hdX8_textLength ⟨Nat.le_of_ble_eq_true rfl, Nat.le_of_ble_eq_true rfl⟩ (Nat.le_of_ble_eq_true rfl) rfl ⟨by first | exact hcC | exact Nat.le_trans (Nat.le_add_right _ 8) hcC, by first | exact hcS | exact Nat.le_trans (Nat.le_add_right _ 40) hcS⟩ rfl rfl dL_law_2290 (fun r2 s2 hp hn2 => ?_)
  subst hp
  try dsimp only at h
  refine r_icmp_eq G (tgt := 2906) dL_law_2293 (by decide) (fun c => ?_) (fun c => ?_)
  · rw [if_pos c] at h
    have h := Option.some.inj h
    subst h
    exact V.widen (by first | exact Nat.le_refl _ | exact Nat.le_add_right _ _) (by first | exact Nat.le_refl _ | exact Nat.le_add_right _ _) hk
  · rw [if_neg c] at h
    refine r_iconst G (v := 0) (by decide) dL_law_2296 ?_
    cases h

theorem hdL_example : yL_example.cls ≠ "java/lang/invoke/MethodHandle" ∧ yL_example.cls ≠ "java/lang/invoke/VarHandle" ∧ (parseMethodDescriptor yL_example.desc).map (fun d => d.parameters.length) = some 3 := by decide +kernel
theorem hdX8_example : yX8_example.cls = RX8 ∧ yX8_example.cls ≠ "java/lang/invoke/MethodHandle" ∧ yX8_example.cls ≠ "java/lang/invoke/VarHandle" ∧ (parseMethodDescriptor yX8_example.desc).map (fun d => d.parameters.length) = some 1 := by decide +kernel
set_option maxHeartbeats 4000000 in
set_option maxRecDepth 100000 in
theorem wL_c36 {E : evT} {l : Launch} {D : va_G} {ad bd : Nat → Nat} {qo : Nat} {κ : Nat → ClassId} {kK kV : Nat → Nat} (hE : EvOk E) (hT : TOk E) (hfl : l.stackTraces = false) (hC : COk E) (hSt : SOk E kK kV) {Γ : cxT} (G : Cx (lW ad bd κ qo) D (tyA κ) E l Γ code RL wsL_law 9 room_1) {b L : Nat} {ys : Nat → Int32} (hX : va_X b L ys (xs Γ) (xH Γ)) (hbl : b < (xH Γ).size) (hbA : ¬ xA Γ b) {C S : Nat} (hcC : C + 8 ≤ room_1.cells) (hcS : S + 40 ≤ room_1.slots) (i : Int32) (s : lS) {o : lS} (hk : V (lW ad bd κ qo) D Γ o (C + 8) (S + 40) 2906 [(0, .ref b), (1, .ref (ad 55)), (2, .ref (bd 67)), (3, .ref qo), (4, .int i)] []) (h : fL_c36 L ys i s = some o) : V (lW ad bd κ qo) D Γ s C S 2298 [(0, .ref b), (1, .ref (ad 55)), (2, .ref (bd 67)), (3, .ref qo), (4, .int i)] [] := by
  rw [fL_c36] at h
  refine r_aload_n G 1 rfl rfl dL_law_2298 ?_
  refine r_aload_n G 0 rfl rfl dL_law_2299 ?_
  refine r_iload G 4 rfl dL_law_2300 ?_
  refine r_iconst G (v := 1) (by decide) dL_law_2302 ?_
  refine r_iadd G dL_law_2303 ?_
  obtain ⟨g1, h⟩ := og h
  refine r_sld G hX hbl hbA (vin_in g1) dL_law_2304 ?_
  refine r_aload_n G 3 rfl rfl dL_law_2305 ?_
  obtain ⟨o2, e2, h⟩ := ob h
  refine r_callSixH G [.ref (ad 55), .int (ys (i + 1).toNatClampNeg), .ref qo] (qL_example hE hT hfl hC hSt (ys (i + 1).toNatClampNeg) _ e2) gL_law_L_example rfl hdL_example ⟨Nat.le_of_ble_eq_true rfl, Nat.le_of_ble_eq_true rfl⟩ (Nat.le_of_ble_eq_true rfl) rfl ⟨by first | exact hcC | exact Nat.le_trans (Nat.le_add_right _ 8) hcC, by first | exact hcS | exact Nat.le_trans (Nat.le_add_right _ 40) hcS⟩ rfl rfl dL_law_2306 (fun k9 st9 hp9 => ?_) (fun r2 s2 hp hn2 => ?_)
  · subst hp9
    try dsimp only [Sum.elim_inl] at h
    cases h
  subst hp
  try dsimp only [Sum.elim_inr] at h
  refine r_istore G (lv' := [(0, .ref b), (1, .ref (ad 55)), (2, .ref (bd 67)), (3, .ref qo), (4, .int i), (5, .int r2)]) [1, 2, 3, 4, 5, 0] rfl (by decide) dL_law_2309 ?_
  refine r_aload_n G 2 rfl rfl dL_law_2311 ?_
  refine r_aload_n G 0 rfl rfl dL_law_2312 ?_
  refine r_iload G 4 rfl dL_law_2313 ?_
  refine r_iconst G (v := 1) (by decide) dL_law_2315 ?_
  refine r_iadd G dL_law_2316 ?_
  obtain ⟨g3, h⟩ := og h
  refine r_sld G hX hbl hbA (vin_in g3) dL_law_2317 ?_
  obtain ⟨o4, e4, h⟩ := ob h
  refine e_callVi G (fun x9 : mS => (s2.1, x9, s2.2.2)) (fun x9 => lW_m ad bd κ qo _ x9 _) rfl [.int (ys (i + 1).toNatClampNeg)] (qX8_example hE hSt (ys (i + 1).toNatClampNeg) _ e4) ⟨146, 8, _, _, rfl, (lw_MO ad bd κ qo _), rfl⟩ gL_law_X8_example rfl hdX8_example ⟨Nat.le_of_ble_eq_true rfl, Nat.le_of_ble_eq_true rfl⟩ (Nat.le_of_ble_eq_true rfl) rfl ⟨by first | exact hcC | exact Nat.le_trans (Nat.le_add_right _ 8) hcC, by first | exact hcS | exact Nat.le_trans (Nat.le_add_right _ 40) hcS⟩ rfl rfl dL_law_2318 (fun r4 s4 hp hn4 => ?_)
  subst hp
  try dsimp only at h
  refine r_istore G (lv' := [(0, .ref b), (1, .ref (ad 55)), (2, .ref (bd 67)), (3, .ref qo), (4, .int i), (5, .int r2), (6, .int r4)]) [1, 2, 3, 4, 5, 6, 0] rfl (by decide) dL_law_2321 ?_
  refine r_aload_n G 2 rfl rfl dL_law_2323 ?_
  refine e_callVi G (fun x9 : mS => (s2.1, x9, s2.2.2)) (fun x9 => lW_m ad bd κ qo _ x9 _) rfl [] (qX8_thrown hE _) ⟨146, 8, _, _, rfl, (lw_MO ad bd κ qo _), rfl⟩ gL_law_X8_thrown rfl hdX8_thrown ⟨Nat.le_of_ble_eq_true rfl, Nat.le_of_ble_eq_true rfl⟩ (Nat.le_of_ble_eq_true rfl) rfl ⟨by first | exact hcC | exact Nat.le_trans (Nat.le_add_right _ 8) hcC, by first | exact hcS | exact Nat.le_trans (Nat.le_add_right _ 40) hcS⟩ rfl rfl dL_law_2324 (fun r5 s5 hp hn5 => ?_)
  obtain ⟨rfl, hs⟩ := hp
  have hs := hs.symm
  subst hs
  refine r_iload G 5 rfl dL_law_2327 ?_
  refine r_icmp_eq G (tgt := 2334) dL_law_2329 (by decide) (fun c => ?_) (fun c => ?_)
  · rw [if_pos c] at h
    refine r_iload G 5 rfl dL_law_2334 ?_
    refine r_if_ne G (tgt := 2351) dL_law_2336 (by decide) (fun c => ?_) (fun c => ?_)
    · rw [if_neg c] at h
      refine r_goto G (tgt := 2906) dL_law_2351 (by decide) ?_
      refine V.sub (lv' := [(0, .ref b), (1, .ref (ad 55)), (2, .ref (bd 67)), (3, .ref qo), (4, .int i)]) [0, 1, 2, 3, 4] rfl ?_
      have h := Option.some.inj h
      subst h
      exact V.widen (by first | exact Nat.le_refl _ | exact Nat.le_add_right _ _) (by first | exact Nat.le_refl _ | exact Nat.le_add_right _ _) hk
    · rw [if_pos c] at h
      refine r_aload_n G 3 rfl rfl dL_law_2339 ?_
      refine r_iconst G (v := 0) (by decide) dL_law_2340 ?_
      refine r_outld G dL_law_2341 ?_
      refine r_iload G 6 rfl dL_law_2342 ?_
      refine r_i2l G dL_law_2344 ?_
      refine r_lcmp G dL_law_2345 ?_
      refine r_if_eq G (tgt := 2351) dL_law_2346 (by decide) (fun c => ?_) (fun c => ?_)
      · rw [if_pos c] at h
        refine r_goto G (tgt := 2906) dL_law_2351 (by decide) ?_
        refine V.sub (lv' := [(0, .ref b), (1, .ref (ad 55)), (2, .ref (bd 67)), (3, .ref qo), (4, .int i)]) [0, 1, 2, 3, 4] rfl ?_
        have h := Option.some.inj h
        subst h
        exact V.widen (by first | exact Nat.le_refl _ | exact Nat.le_add_right _ _) (by first | exact Nat.le_refl _ | exact Nat.le_add_right _ _) hk
      · rw [if_neg c] at h
        refine r_iconst G (v := 0) (by decide) dL_law_2349 ?_
        cases h
  · rw [if_neg c] at h
    refine r_iconst G (v := 0) (by decide) dL_law_2332 ?_
    cases h

theorem hdX7_errorKind : yX7_errorKind.cls = RX7 ∧ yX7_errorKind.cls ≠ "java/lang/invoke/MethodHandle" ∧ yX7_errorKind.cls ≠ "java/lang/invoke/VarHandle" ∧ (parseMethodDescriptor yX7_errorKind.desc).map (fun d => d.parameters.length) = some 0 := by decide +kernel
theorem hdX8_errorKind : yX8_errorKind.cls = RX8 ∧ yX8_errorKind.cls ≠ "java/lang/invoke/MethodHandle" ∧ yX8_errorKind.cls ≠ "java/lang/invoke/VarHandle" ∧ (parseMethodDescriptor yX8_errorKind.desc).map (fun d => d.parameters.length) = some 0 := by decide +kernel
set_option maxHeartbeats 4000000 in
set_option maxRecDepth 100000 in
theorem wL_c37 {E : evT} {l : Launch} {D : va_G} {ad bd : Nat → Nat} {qo : Nat} {κ : Nat → ClassId} {kK kV : Nat → Nat} (hE : EvOk E) (hT : TOk E) (hfl : l.stackTraces = false) (hC : COk E) (hSt : SOk E kK kV) {Γ : cxT} (G : Cx (lW ad bd κ qo) D (tyA κ) E l Γ code RL wsL_law 9 room_1) {b L : Nat} {ys : Nat → Int32} (hX : va_X b L ys (xs Γ) (xH Γ)) (hbl : b < (xH Γ).size) (hbA : ¬ xA Γ b) {C S : Nat} (hcC : C + 8 ≤ room_1.cells) (hcS : S + 40 ≤ room_1.slots) (i : Int32) (s : lS) {o : lS} (hk : V (lW ad bd κ qo) D Γ o (C + 8) (S + 40) 2906 [(0, .ref b), (1, .ref (ad 55)), (2, .ref (bd 67)), (3, .ref qo), (4, .int i)] []) (h : fL_c37 L ys i s = some o) : V (lW ad bd κ qo) D Γ s C S 2354 [(0, .ref b), (1, .ref (ad 55)), (2, .ref (bd 67)), (3, .ref qo), (4, .int i)] [] := by
  rw [fL_c37] at h
  refine r_aload_n G 1 rfl rfl dL_law_2354 ?_
  obtain ⟨o1, e1, h⟩ := ob h
  refine e_callVi G (fun x9 : cS => (x9, s.2.1, s.2.2)) (fun x9 => lW_c ad bd κ qo x9 _ _) rfl [] (qX7_errorKind hE _ e1) ⟨55, 7, _, _, rfl, (lw_SC ad bd κ qo _), rfl⟩ gL_law_X7_errorKind rfl hdX7_errorKind ⟨Nat.le_of_ble_eq_true rfl, Nat.le_of_ble_eq_true rfl⟩ (Nat.le_of_ble_eq_true rfl) rfl ⟨by first | exact hcC | exact Nat.le_trans (Nat.le_add_right _ 8) hcC, by first | exact hcS | exact Nat.le_trans (Nat.le_add_right _ 40) hcS⟩ rfl rfl dL_law_2355 (fun r1 s1 hp hn1 => ?_)
  subst hp
  try dsimp only at h
  refine r_aload_n G 2 rfl rfl dL_law_2358 ?_
  obtain ⟨o2, e2, h⟩ := ob h
  refine e_callVi G (fun x9 : mS => (s1, x9, s.2.2)) (fun x9 => lW_m ad bd κ qo _ x9 _) rfl [] (qX8_errorKind hE _ e2) ⟨146, 8, _, _, rfl, (lw_MO ad bd κ qo _), rfl⟩ gL_law_X8_errorKind rfl hdX8_errorKind ⟨Nat.le_of_ble_eq_true rfl, Nat.le_of_ble_eq_true rfl⟩ (Nat.le_of_ble_eq_true rfl) rfl ⟨by first | exact hcC | exact Nat.le_trans (Nat.le_add_right _ 8) hcC, by first | exact hcS | exact Nat.le_trans (Nat.le_add_right _ 40) hcS⟩ rfl rfl dL_law_2359 (fun r2 s2 hp hn2 => ?_)
  subst hp
  try dsimp only at h
  refine r_icmp_eq G (tgt := 2906) dL_law_2362 (by decide) (fun c => ?_) (fun c => ?_)
  · rw [if_pos c] at h
    have h := Option.some.inj h
    subst h
    exact V.widen (by first | exact Nat.le_refl _ | exact Nat.le_add_right _ _) (by first | exact Nat.le_refl _ | exact Nat.le_add_right _ _) hk
  · rw [if_neg c] at h
    refine r_iconst G (v := 0) (by decide) dL_law_2365 ?_
    cases h

theorem hdX7_errorPlace : yX7_errorPlace.cls = RX7 ∧ yX7_errorPlace.cls ≠ "java/lang/invoke/MethodHandle" ∧ yX7_errorPlace.cls ≠ "java/lang/invoke/VarHandle" ∧ (parseMethodDescriptor yX7_errorPlace.desc).map (fun d => d.parameters.length) = some 0 := by decide +kernel
theorem hdX8_errorPlace : yX8_errorPlace.cls = RX8 ∧ yX8_errorPlace.cls ≠ "java/lang/invoke/MethodHandle" ∧ yX8_errorPlace.cls ≠ "java/lang/invoke/VarHandle" ∧ (parseMethodDescriptor yX8_errorPlace.desc).map (fun d => d.parameters.length) = some 0 := by decide +kernel
set_option maxHeartbeats 4000000 in
set_option maxRecDepth 100000 in
theorem wL_c38 {E : evT} {l : Launch} {D : va_G} {ad bd : Nat → Nat} {qo : Nat} {κ : Nat → ClassId} {kK kV : Nat → Nat} (hE : EvOk E) (hT : TOk E) (hfl : l.stackTraces = false) (hC : COk E) (hSt : SOk E kK kV) {Γ : cxT} (G : Cx (lW ad bd κ qo) D (tyA κ) E l Γ code RL wsL_law 9 room_1) {b L : Nat} {ys : Nat → Int32} (hX : va_X b L ys (xs Γ) (xH Γ)) (hbl : b < (xH Γ).size) (hbA : ¬ xA Γ b) {C S : Nat} (hcC : C + 8 ≤ room_1.cells) (hcS : S + 40 ≤ room_1.slots) (i : Int32) (s : lS) {o : lS} (hk : V (lW ad bd κ qo) D Γ o (C + 8) (S + 40) 2906 [(0, .ref b), (1, .ref (ad 55)), (2, .ref (bd 67)), (3, .ref qo), (4, .int i)] []) (h : fL_c38 L ys i s = some o) : V (lW ad bd κ qo) D Γ s C S 2367 [(0, .ref b), (1, .ref (ad 55)), (2, .ref (bd 67)), (3, .ref qo), (4, .int i)] [] := by
  rw [fL_c38] at h
  refine r_aload_n G 1 rfl rfl dL_law_2367 ?_
  obtain ⟨o1, e1, h⟩ := ob h
  refine e_callVi G (fun x9 : cS => (x9, s.2.1, s.2.2)) (fun x9 => lW_c ad bd κ qo x9 _ _) rfl [] (qX7_errorPlace hE _ e1) ⟨55, 7, _, _, rfl, (lw_SC ad bd κ qo _), rfl⟩ gL_law_X7_errorPlace rfl hdX7_errorPlace ⟨Nat.le_of_ble_eq_true rfl, Nat.le_of_ble_eq_true rfl⟩ (Nat.le_of_ble_eq_true rfl) rfl ⟨by first | exact hcC | exact Nat.le_trans (Nat.le_add_right _ 8) hcC, by first | exact hcS | exact Nat.le_trans (Nat.le_add_right _ 40) hcS⟩ rfl rfl dL_law_2368 (fun r1 s1 hp hn1 => ?_)
  subst hp
  try dsimp only at h
  refine r_aload_n G 2 rfl rfl dL_law_2371 ?_
  obtain ⟨o2, e2, h⟩ := ob h
  refine e_callVi G (fun x9 : mS => (s1, x9, s.2.2)) (fun x9 => lW_m ad bd κ qo _ x9 _) rfl [] (qX8_errorPlace hE _ e2) ⟨146, 8, _, _, rfl, (lw_MO ad bd κ qo _), rfl⟩ gL_law_X8_errorPlace rfl hdX8_errorPlace ⟨Nat.le_of_ble_eq_true rfl, Nat.le_of_ble_eq_true rfl⟩ (Nat.le_of_ble_eq_true rfl) rfl ⟨by first | exact hcC | exact Nat.le_trans (Nat.le_add_right _ 8) hcC, by first | exact hcS | exact Nat.le_trans (Nat.le_add_right _ 40) hcS⟩ rfl rfl dL_law_2372 (fun r2 s2 hp hn2 => ?_)
  subst hp
  try dsimp only at h
  refine r_icmp_eq G (tgt := 2906) dL_law_2375 (by decide) (fun c => ?_) (fun c => ?_)
  · rw [if_pos c] at h
    have h := Option.some.inj h
    subst h
    exact V.widen (by first | exact Nat.le_refl _ | exact Nat.le_add_right _ _) (by first | exact Nat.le_refl _ | exact Nat.le_add_right _ _) hk
  · rw [if_neg c] at h
    refine r_iconst G (v := 0) (by decide) dL_law_2378 ?_
    cases h

theorem hdL_run : yL_run.cls ≠ "java/lang/invoke/MethodHandle" ∧ yL_run.cls ≠ "java/lang/invoke/VarHandle" ∧ (parseMethodDescriptor yL_run.desc).map (fun d => d.parameters.length) = some 2 := by decide +kernel
theorem hdX8_run : yX8_run.cls = RX8 ∧ yX8_run.cls ≠ "java/lang/invoke/MethodHandle" ∧ yX8_run.cls ≠ "java/lang/invoke/VarHandle" ∧ (parseMethodDescriptor yX8_run.desc).map (fun d => d.parameters.length) = some 0 := by decide +kernel
set_option maxHeartbeats 4000000 in
set_option maxRecDepth 100000 in
theorem wL_c39 {E : evT} {l : Launch} {D : va_G} {ad bd : Nat → Nat} {qo : Nat} {κ : Nat → ClassId} {kK kV : Nat → Nat} (hE : EvOk E) (hT : TOk E) (hfl : l.stackTraces = false) (hC : COk E) (hSt : SOk E kK kV) {Γ : cxT} (G : Cx (lW ad bd κ qo) D (tyA κ) E l Γ code RL wsL_law 9 room_1) {b L : Nat} {ys : Nat → Int32} (hX : va_X b L ys (xs Γ) (xH Γ)) (hbl : b < (xH Γ).size) (hbA : ¬ xA Γ b) {C S : Nat} (hcC : C + 8 ≤ room_1.cells) (hcS : S + 40 ≤ room_1.slots) (i : Int32) (s : lS) {o : lS} (hk : V (lW ad bd κ qo) D Γ o (C + 8) (S + 40) 2906 [(0, .ref b), (1, .ref (ad 55)), (2, .ref (bd 67)), (3, .ref qo), (4, .int i)] []) (h : fL_c39 L ys i s = some o) : V (lW ad bd κ qo) D Γ s C S 2380 [(0, .ref b), (1, .ref (ad 55)), (2, .ref (bd 67)), (3, .ref qo), (4, .int i)] [] := by
  rw [fL_c39] at h
  refine r_aload_n G 1 rfl rfl dL_law_2380 ?_
  refine r_aload_n G 3 rfl rfl dL_law_2381 ?_
  obtain ⟨o1, e1, h⟩ := ob h
  refine r_callSixH G [.ref (ad 55), .ref qo] (qL_run hE hT hfl hC _ e1) gL_law_L_run rfl hdL_run ⟨Nat.le_of_ble_eq_true rfl, Nat.le_of_ble_eq_true rfl⟩ (Nat.le_of_ble_eq_true rfl) rfl ⟨by first | exact hcC | exact Nat.le_trans (Nat.le_add_right _ 8) hcC, by first | exact hcS | exact Nat.le_trans (Nat.le_add_right _ 40) hcS⟩ rfl rfl dL_law_2382 (fun k9 st9 hp9 => ?_) (fun r1 s1 hp hn1 => ?_)
  · subst hp9
    try dsimp only [Sum.elim_inl] at h
    cases h
  subst hp
  try dsimp only [Sum.elim_inr] at h
  refine r_istore G (lv' := [(0, .ref b), (1, .ref (ad 55)), (2, .ref (bd 67)), (3, .ref qo), (4, .int i), (5, .int r1)]) [1, 2, 3, 4, 5, 0] rfl (by decide) dL_law_2385 ?_
  refine r_aload_n G 2 rfl rfl dL_law_2387 ?_
  obtain ⟨o2, e2, h⟩ := ob h
  refine e_callVi G (fun x9 : mS => (s1.1, x9, s1.2.2)) (fun x9 => lW_m ad bd κ qo _ x9 _) rfl [] (qX8_run hE _ e2) ⟨146, 8, _, _, rfl, (lw_MO ad bd κ qo _), rfl⟩ gL_law_X8_run rfl hdX8_run ⟨Nat.le_of_ble_eq_true rfl, Nat.le_of_ble_eq_true rfl⟩ (Nat.le_of_ble_eq_true rfl) rfl ⟨by first | exact hcC | exact Nat.le_trans (Nat.le_add_right _ 8) hcC, by first | exact hcS | exact Nat.le_trans (Nat.le_add_right _ 40) hcS⟩ rfl rfl dL_law_2388 (fun r2 s2 hp hn2 => ?_)
  subst hp
  try dsimp only at h
  refine r_istore G (lv' := [(0, .ref b), (1, .ref (ad 55)), (2, .ref (bd 67)), (3, .ref qo), (4, .int i), (5, .int r1), (6, .int r2)]) [1, 2, 3, 4, 5, 6, 0] rfl (by decide) dL_law_2391 ?_
  refine r_aload_n G 2 rfl rfl dL_law_2393 ?_
  refine e_callVi G (fun x9 : mS => (s1.1, x9, s1.2.2)) (fun x9 => lW_m ad bd κ qo _ x9 _) rfl [] (qX8_thrown hE _) ⟨146, 8, _, _, rfl, (lw_MO ad bd κ qo _), rfl⟩ gL_law_X8_thrown rfl hdX8_thrown ⟨Nat.le_of_ble_eq_true rfl, Nat.le_of_ble_eq_true rfl⟩ (Nat.le_of_ble_eq_true rfl) rfl ⟨by first | exact hcC | exact Nat.le_trans (Nat.le_add_right _ 8) hcC, by first | exact hcS | exact Nat.le_trans (Nat.le_add_right _ 40) hcS⟩ rfl rfl dL_law_2394 (fun r3 s3 hp hn3 => ?_)
  obtain ⟨rfl, hs⟩ := hp
  have hs := hs.symm
  subst hs
  refine r_iload G 5 rfl dL_law_2397 ?_
  refine r_icmp_eq G (tgt := 2404) dL_law_2399 (by decide) (fun c => ?_) (fun c => ?_)
  · rw [if_pos c] at h
    refine r_iload G 5 rfl dL_law_2404 ?_
    refine r_if_ne G (tgt := 2421) dL_law_2406 (by decide) (fun c => ?_) (fun c => ?_)
    · rw [if_neg c] at h
      refine r_goto G (tgt := 2906) dL_law_2421 (by decide) ?_
      refine V.sub (lv' := [(0, .ref b), (1, .ref (ad 55)), (2, .ref (bd 67)), (3, .ref qo), (4, .int i)]) [0, 1, 2, 3, 4] rfl ?_
      have h := Option.some.inj h
      subst h
      exact V.widen (by first | exact Nat.le_refl _ | exact Nat.le_add_right _ _) (by first | exact Nat.le_refl _ | exact Nat.le_add_right _ _) hk
    · rw [if_pos c] at h
      refine r_aload_n G 3 rfl rfl dL_law_2409 ?_
      refine r_iconst G (v := 0) (by decide) dL_law_2410 ?_
      refine r_outld G dL_law_2411 ?_
      refine r_iload G 6 rfl dL_law_2412 ?_
      refine r_i2l G dL_law_2414 ?_
      refine r_lcmp G dL_law_2415 ?_
      refine r_if_eq G (tgt := 2421) dL_law_2416 (by decide) (fun c => ?_) (fun c => ?_)
      · rw [if_pos c] at h
        refine r_goto G (tgt := 2906) dL_law_2421 (by decide) ?_
        refine V.sub (lv' := [(0, .ref b), (1, .ref (ad 55)), (2, .ref (bd 67)), (3, .ref qo), (4, .int i)]) [0, 1, 2, 3, 4] rfl ?_
        have h := Option.some.inj h
        subst h
        exact V.widen (by first | exact Nat.le_refl _ | exact Nat.le_add_right _ _) (by first | exact Nat.le_refl _ | exact Nat.le_add_right _ _) hk
      · rw [if_neg c] at h
        refine r_iconst G (v := 0) (by decide) dL_law_2419 ?_
        cases h
  · rw [if_neg c] at h
    refine r_iconst G (v := 0) (by decide) dL_law_2402 ?_
    cases h
