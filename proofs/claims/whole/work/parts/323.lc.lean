theorem hdX7_keptSum : yX7_keptSum.cls = RX7 ∧ yX7_keptSum.cls ≠ "java/lang/invoke/MethodHandle" ∧ yX7_keptSum.cls ≠ "java/lang/invoke/VarHandle" ∧ (parseMethodDescriptor yX7_keptSum.desc).map (fun d => d.parameters.length) = some 0 := by decide +kernel
theorem hdX8_keptSum : yX8_keptSum.cls = RX8 ∧ yX8_keptSum.cls ≠ "java/lang/invoke/MethodHandle" ∧ yX8_keptSum.cls ≠ "java/lang/invoke/VarHandle" ∧ (parseMethodDescriptor yX8_keptSum.desc).map (fun d => d.parameters.length) = some 0 := by decide +kernel
set_option maxHeartbeats 4000000 in
set_option maxRecDepth 100000 in
theorem wL_c24 {E : evT} {l : Launch} {D : va_G} {ad bd : Nat → Nat} {qo : Nat} {κ : Nat → ClassId} {kK kV : Nat → Nat} (hE : EvOk E) (hT : TOk E) (hfl : l.stackTraces = false) (hC : COk E) (hSt : SOk E kK kV) {Γ : cxT} (G : Cx (lW ad bd κ qo) D (tyA κ) E l Γ code RL wsL_law 9 room_1) {b L : Nat} {ys : Nat → Int32} (hX : va_X b L ys (xs Γ) (xH Γ)) (hbl : b < (xH Γ).size) (hbA : ¬ xA Γ b) {C S : Nat} (hcC : C + 8 ≤ room_1.cells) (hcS : S + 40 ≤ room_1.slots) (i : Int32) (s : lS) {o : lS} (hk : V (lW ad bd κ qo) D Γ o (C + 8) (S + 40) 2906 [(0, .ref b), (1, .ref (ad 55)), (2, .ref (bd 67)), (3, .ref qo), (4, .int i)] []) (h : fL_c24 L ys i s = some o) : V (lW ad bd κ qo) D Γ s C S 1833 [(0, .ref b), (1, .ref (ad 55)), (2, .ref (bd 67)), (3, .ref qo), (4, .int i)] [] := by
  rw [fL_c24] at h
  refine r_aload_n G 1 rfl rfl dL_law_1833 ?_
  obtain ⟨o1, e1, h⟩ := ob h
  refine e_callVi G (fun x9 : cS => (x9, s.2.1, s.2.2)) (fun x9 => lW_c ad bd κ qo x9 _ _) rfl [] (qX7_keptSum hE _ e1) ⟨55, 7, _, _, rfl, (lw_SC ad bd κ qo _), rfl⟩ gL_law_X7_keptSum rfl hdX7_keptSum ⟨Nat.le_of_ble_eq_true rfl, Nat.le_of_ble_eq_true rfl⟩ (Nat.le_of_ble_eq_true rfl) rfl ⟨by first | exact hcC | exact Nat.le_trans (Nat.le_add_right _ 8) hcC, by first | exact hcS | exact Nat.le_trans (Nat.le_add_right _ 40) hcS⟩ rfl rfl dL_law_1834 (fun r1 s1 hp hn1 => ?_)
  subst hp
  try dsimp only at h
  refine r_aload_n G 2 rfl rfl dL_law_1837 ?_
  obtain ⟨o2, e2, h⟩ := ob h
  refine e_callVi G (fun x9 : mS => (s1, x9, s.2.2)) (fun x9 => lW_m ad bd κ qo _ x9 _) rfl [] (qX8_keptSum hE _ e2) ⟨146, 8, _, _, rfl, (lw_MO ad bd κ qo _), rfl⟩ gL_law_X8_keptSum rfl hdX8_keptSum ⟨Nat.le_of_ble_eq_true rfl, Nat.le_of_ble_eq_true rfl⟩ (Nat.le_of_ble_eq_true rfl) rfl ⟨by first | exact hcC | exact Nat.le_trans (Nat.le_add_right _ 8) hcC, by first | exact hcS | exact Nat.le_trans (Nat.le_add_right _ 40) hcS⟩ rfl rfl dL_law_1838 (fun r2 s2 hp hn2 => ?_)
  subst hp
  try dsimp only at h
  refine r_icmp_eq G (tgt := 2906) dL_law_1841 (by decide) (fun c => ?_) (fun c => ?_)
  · rw [if_pos c] at h
    have h := Option.some.inj h
    subst h
    exact V.widen (by first | exact Nat.le_refl _ | exact Nat.le_add_right _ _) (by first | exact Nat.le_refl _ | exact Nat.le_add_right _ _) hk
  · rw [if_neg c] at h
    refine r_iconst G (v := 0) (by decide) dL_law_1844 ?_
    cases h

theorem hdX7_dropAll : yX7_dropAll.cls = RX7 ∧ yX7_dropAll.cls ≠ "java/lang/invoke/MethodHandle" ∧ yX7_dropAll.cls ≠ "java/lang/invoke/VarHandle" ∧ (parseMethodDescriptor yX7_dropAll.desc).map (fun d => d.parameters.length) = some 0 := by decide +kernel
theorem hdX8_dropAll : yX8_dropAll.cls = RX8 ∧ yX8_dropAll.cls ≠ "java/lang/invoke/MethodHandle" ∧ yX8_dropAll.cls ≠ "java/lang/invoke/VarHandle" ∧ (parseMethodDescriptor yX8_dropAll.desc).map (fun d => d.parameters.length) = some 0 := by decide +kernel
set_option maxHeartbeats 4000000 in
set_option maxRecDepth 100000 in
theorem wL_c25 {E : evT} {l : Launch} {D : va_G} {ad bd : Nat → Nat} {qo : Nat} {κ : Nat → ClassId} {kK kV : Nat → Nat} (hE : EvOk E) (hT : TOk E) (hfl : l.stackTraces = false) (hC : COk E) (hSt : SOk E kK kV) {Γ : cxT} (G : Cx (lW ad bd κ qo) D (tyA κ) E l Γ code RL wsL_law 9 room_1) {b L : Nat} {ys : Nat → Int32} (hX : va_X b L ys (xs Γ) (xH Γ)) (hbl : b < (xH Γ).size) (hbA : ¬ xA Γ b) {C S : Nat} (hcC : C + 8 ≤ room_1.cells) (hcS : S + 40 ≤ room_1.slots) (i : Int32) (s : lS) {o : lS} (hk : V (lW ad bd κ qo) D Γ o (C + 8) (S + 40) 2906 [(0, .ref b), (1, .ref (ad 55)), (2, .ref (bd 67)), (3, .ref qo), (4, .int i)] []) (h : fL_c25 L ys i s = some o) : V (lW ad bd κ qo) D Γ s C S 1846 [(0, .ref b), (1, .ref (ad 55)), (2, .ref (bd 67)), (3, .ref qo), (4, .int i)] [] := by
  rw [fL_c25] at h
  refine r_aload_n G 1 rfl rfl dL_law_1846 ?_
  obtain ⟨o1, e1, h⟩ := ob h
  refine e_callVi G (fun x9 : cS => (x9, s.2.1, s.2.2)) (fun x9 => lW_c ad bd κ qo x9 _ _) rfl [] (qX7_dropAll hE _ e1) ⟨55, 7, _, _, rfl, (lw_SC ad bd κ qo _), rfl⟩ gL_law_X7_dropAll rfl hdX7_dropAll ⟨Nat.le_of_ble_eq_true rfl, Nat.le_of_ble_eq_true rfl⟩ (Nat.le_of_ble_eq_true rfl) rfl ⟨by first | exact hcC | exact Nat.le_trans (Nat.le_add_right _ 8) hcC, by first | exact hcS | exact Nat.le_trans (Nat.le_add_right _ 40) hcS⟩ rfl rfl dL_law_1847 (fun r1 s1 hp hn1 => ?_)
  subst hp
  try dsimp only at h
  refine r_aload_n G 2 rfl rfl dL_law_1850 ?_
  obtain ⟨o2, e2, h⟩ := ob h
  refine e_callVi G (fun x9 : mS => (s1, x9, s.2.2)) (fun x9 => lW_m ad bd κ qo _ x9 _) rfl [] (qX8_dropAll hE _ e2) ⟨146, 8, _, _, rfl, (lw_MO ad bd κ qo _), rfl⟩ gL_law_X8_dropAll rfl hdX8_dropAll ⟨Nat.le_of_ble_eq_true rfl, Nat.le_of_ble_eq_true rfl⟩ (Nat.le_of_ble_eq_true rfl) rfl ⟨by first | exact hcC | exact Nat.le_trans (Nat.le_add_right _ 8) hcC, by first | exact hcS | exact Nat.le_trans (Nat.le_add_right _ 40) hcS⟩ rfl rfl dL_law_1851 (fun r2 s2 hp hn2 => ?_)
  subst hp
  try dsimp only at h
  refine r_icmp_eq G (tgt := 2906) dL_law_1854 (by decide) (fun c => ?_) (fun c => ?_)
  · rw [if_pos c] at h
    have h := Option.some.inj h
    subst h
    exact V.widen (by first | exact Nat.le_refl _ | exact Nat.le_add_right _ _) (by first | exact Nat.le_refl _ | exact Nat.le_add_right _ _) hk
  · rw [if_neg c] at h
    refine r_iconst G (v := 0) (by decide) dL_law_1857 ?_
    cases h

theorem hdL_placeOf : yL_placeOf.cls ≠ "java/lang/invoke/MethodHandle" ∧ yL_placeOf.cls ≠ "java/lang/invoke/VarHandle" ∧ (parseMethodDescriptor yL_placeOf.desc).map (fun d => d.parameters.length) = some 3 := by decide +kernel
theorem hdX8_placeOf : yX8_placeOf.cls = RX8 ∧ yX8_placeOf.cls ≠ "java/lang/invoke/MethodHandle" ∧ yX8_placeOf.cls ≠ "java/lang/invoke/VarHandle" ∧ (parseMethodDescriptor yX8_placeOf.desc).map (fun d => d.parameters.length) = some 1 := by decide +kernel
set_option maxHeartbeats 4000000 in
set_option maxRecDepth 100000 in
theorem wL_c26 {E : evT} {l : Launch} {D : va_G} {ad bd : Nat → Nat} {qo : Nat} {κ : Nat → ClassId} {kK kV : Nat → Nat} (hE : EvOk E) (hT : TOk E) (hfl : l.stackTraces = false) (hC : COk E) (hSt : SOk E kK kV) {Γ : cxT} (G : Cx (lW ad bd κ qo) D (tyA κ) E l Γ code RL wsL_law 9 room_1) {b L : Nat} {ys : Nat → Int32} (hX : va_X b L ys (xs Γ) (xH Γ)) (hbl : b < (xH Γ).size) (hbA : ¬ xA Γ b) {C S : Nat} (hcC : C + 8 ≤ room_1.cells) (hcS : S + 40 ≤ room_1.slots) (i : Int32) (s : lS) {o : lS} (hk : V (lW ad bd κ qo) D Γ o (C + 8) (S + 40) 2906 [(0, .ref b), (1, .ref (ad 55)), (2, .ref (bd 67)), (3, .ref qo), (4, .int i)] []) (h : fL_c26 L ys i s = some o) : V (lW ad bd κ qo) D Γ s C S 1859 [(0, .ref b), (1, .ref (ad 55)), (2, .ref (bd 67)), (3, .ref qo), (4, .int i)] [] := by
  rw [fL_c26] at h
  refine r_aload_n G 1 rfl rfl dL_law_1859 ?_
  refine r_aload_n G 0 rfl rfl dL_law_1860 ?_
  refine r_iload G 4 rfl dL_law_1861 ?_
  refine r_iconst G (v := 1) (by decide) dL_law_1863 ?_
  refine r_iadd G dL_law_1864 ?_
  obtain ⟨g1, h⟩ := og h
  refine r_sld G hX hbl hbA (vin_in g1) dL_law_1865 ?_
  refine r_aload_n G 3 rfl rfl dL_law_1866 ?_
  obtain ⟨o2, e2, h⟩ := ob h
  refine r_callSixH G [.ref (ad 55), .int (ys (i + 1).toNatClampNeg), .ref qo] (qL_placeOf hE hT hfl hC (ys (i + 1).toNatClampNeg) _ e2) gL_law_L_placeOf rfl hdL_placeOf ⟨Nat.le_of_ble_eq_true rfl, Nat.le_of_ble_eq_true rfl⟩ (Nat.le_of_ble_eq_true rfl) rfl ⟨by first | exact hcC | exact Nat.le_trans (Nat.le_add_right _ 8) hcC, by first | exact hcS | exact Nat.le_trans (Nat.le_add_right _ 40) hcS⟩ rfl rfl dL_law_1867 (fun k9 st9 hp9 => ?_) (fun r2 s2 hp hn2 => ?_)
  · subst hp9
    try dsimp only [Sum.elim_inl] at h
    cases h
  subst hp
  try dsimp only [Sum.elim_inr] at h
  refine r_istore G (lv' := [(0, .ref b), (1, .ref (ad 55)), (2, .ref (bd 67)), (3, .ref qo), (4, .int i), (5, .int r2)]) [1, 2, 3, 4, 5, 0] rfl (by decide) dL_law_1870 ?_
  refine r_aload_n G 2 rfl rfl dL_law_1872 ?_
  refine r_aload_n G 0 rfl rfl dL_law_1873 ?_
  refine r_iload G 4 rfl dL_law_1874 ?_
  refine r_iconst G (v := 1) (by decide) dL_law_1876 ?_
  refine r_iadd G dL_law_1877 ?_
  obtain ⟨g3, h⟩ := og h
  refine r_sld G hX hbl hbA (vin_in g3) dL_law_1878 ?_
  obtain ⟨o4, e4, h⟩ := ob h
  refine e_callVi G (fun x9 : mS => (s2.1, x9, s2.2.2)) (fun x9 => lW_m ad bd κ qo _ x9 _) rfl [.int (ys (i + 1).toNatClampNeg)] (qX8_placeOf hE (ys (i + 1).toNatClampNeg) _ e4) ⟨146, 8, _, _, rfl, (lw_MO ad bd κ qo _), rfl⟩ gL_law_X8_placeOf rfl hdX8_placeOf ⟨Nat.le_of_ble_eq_true rfl, Nat.le_of_ble_eq_true rfl⟩ (Nat.le_of_ble_eq_true rfl) rfl ⟨by first | exact hcC | exact Nat.le_trans (Nat.le_add_right _ 8) hcC, by first | exact hcS | exact Nat.le_trans (Nat.le_add_right _ 40) hcS⟩ rfl rfl dL_law_1879 (fun r4 s4 hp hn4 => ?_)
  subst hp
  try dsimp only at h
  refine r_istore G (lv' := [(0, .ref b), (1, .ref (ad 55)), (2, .ref (bd 67)), (3, .ref qo), (4, .int i), (5, .int r2), (6, .int r4)]) [1, 2, 3, 4, 5, 6, 0] rfl (by decide) dL_law_1882 ?_
  refine r_aload_n G 2 rfl rfl dL_law_1884 ?_
  refine e_callVi G (fun x9 : mS => (s2.1, x9, s2.2.2)) (fun x9 => lW_m ad bd κ qo _ x9 _) rfl [] (qX8_thrown hE _) ⟨146, 8, _, _, rfl, (lw_MO ad bd κ qo _), rfl⟩ gL_law_X8_thrown rfl hdX8_thrown ⟨Nat.le_of_ble_eq_true rfl, Nat.le_of_ble_eq_true rfl⟩ (Nat.le_of_ble_eq_true rfl) rfl ⟨by first | exact hcC | exact Nat.le_trans (Nat.le_add_right _ 8) hcC, by first | exact hcS | exact Nat.le_trans (Nat.le_add_right _ 40) hcS⟩ rfl rfl dL_law_1885 (fun r5 s5 hp hn5 => ?_)
  obtain ⟨rfl, hs⟩ := hp
  have hs := hs.symm
  subst hs
  refine r_iload G 5 rfl dL_law_1888 ?_
  refine r_icmp_eq G (tgt := 1895) dL_law_1890 (by decide) (fun c => ?_) (fun c => ?_)
  · rw [if_pos c] at h
    refine r_iload G 5 rfl dL_law_1895 ?_
    refine r_if_ne G (tgt := 1912) dL_law_1897 (by decide) (fun c => ?_) (fun c => ?_)
    · rw [if_neg c] at h
      refine r_goto G (tgt := 2906) dL_law_1912 (by decide) ?_
      refine V.sub (lv' := [(0, .ref b), (1, .ref (ad 55)), (2, .ref (bd 67)), (3, .ref qo), (4, .int i)]) [0, 1, 2, 3, 4] rfl ?_
      have h := Option.some.inj h
      subst h
      exact V.widen (by first | exact Nat.le_refl _ | exact Nat.le_add_right _ _) (by first | exact Nat.le_refl _ | exact Nat.le_add_right _ _) hk
    · rw [if_pos c] at h
      refine r_aload_n G 3 rfl rfl dL_law_1900 ?_
      refine r_iconst G (v := 0) (by decide) dL_law_1901 ?_
      refine r_outld G dL_law_1902 ?_
      refine r_iload G 6 rfl dL_law_1903 ?_
      refine r_i2l G dL_law_1905 ?_
      refine r_lcmp G dL_law_1906 ?_
      refine r_if_eq G (tgt := 1912) dL_law_1907 (by decide) (fun c => ?_) (fun c => ?_)
      · rw [if_pos c] at h
        refine r_goto G (tgt := 2906) dL_law_1912 (by decide) ?_
        refine V.sub (lv' := [(0, .ref b), (1, .ref (ad 55)), (2, .ref (bd 67)), (3, .ref qo), (4, .int i)]) [0, 1, 2, 3, 4] rfl ?_
        have h := Option.some.inj h
        subst h
        exact V.widen (by first | exact Nat.le_refl _ | exact Nat.le_add_right _ _) (by first | exact Nat.le_refl _ | exact Nat.le_add_right _ _) hk
      · rw [if_neg c] at h
        refine r_iconst G (v := 0) (by decide) dL_law_1910 ?_
        cases h
  · rw [if_neg c] at h
    refine r_iconst G (v := 0) (by decide) dL_law_1893 ?_
    cases h

theorem hdL_take : yL_take.cls ≠ "java/lang/invoke/MethodHandle" ∧ yL_take.cls ≠ "java/lang/invoke/VarHandle" ∧ (parseMethodDescriptor yL_take.desc).map (fun d => d.parameters.length) = some 4 := by decide +kernel
theorem hdX8_take : yX8_take.cls = RX8 ∧ yX8_take.cls ≠ "java/lang/invoke/MethodHandle" ∧ yX8_take.cls ≠ "java/lang/invoke/VarHandle" ∧ (parseMethodDescriptor yX8_take.desc).map (fun d => d.parameters.length) = some 2 := by decide +kernel
set_option maxHeartbeats 4000000 in
set_option maxRecDepth 100000 in
theorem wL_c27 {E : evT} {l : Launch} {D : va_G} {ad bd : Nat → Nat} {qo : Nat} {κ : Nat → ClassId} {kK kV : Nat → Nat} (hE : EvOk E) (hT : TOk E) (hfl : l.stackTraces = false) (hC : COk E) (hSt : SOk E kK kV) {Γ : cxT} (G : Cx (lW ad bd κ qo) D (tyA κ) E l Γ code RL wsL_law 9 room_1) {b L : Nat} {ys : Nat → Int32} (hX : va_X b L ys (xs Γ) (xH Γ)) (hbl : b < (xH Γ).size) (hbA : ¬ xA Γ b) {C S : Nat} (hcC : C + 8 ≤ room_1.cells) (hcS : S + 40 ≤ room_1.slots) (i : Int32) (s : lS) {o : lS} (hk : V (lW ad bd κ qo) D Γ o (C + 8) (S + 40) 2906 [(0, .ref b), (1, .ref (ad 55)), (2, .ref (bd 67)), (3, .ref qo), (4, .int i)] []) (h : fL_c27 L ys i s = some o) : V (lW ad bd κ qo) D Γ s C S 1915 [(0, .ref b), (1, .ref (ad 55)), (2, .ref (bd 67)), (3, .ref qo), (4, .int i)] [] := by
  rw [fL_c27] at h
  refine r_aload_n G 1 rfl rfl dL_law_1915 ?_
  refine r_aload_n G 0 rfl rfl dL_law_1916 ?_
  refine r_iload G 4 rfl dL_law_1917 ?_
  refine r_iconst G (v := 1) (by decide) dL_law_1919 ?_
  refine r_iadd G dL_law_1920 ?_
  obtain ⟨g1, h⟩ := og h
  refine r_sld G hX hbl hbA (vin_in g1) dL_law_1921 ?_
  refine r_aload_n G 0 rfl rfl dL_law_1922 ?_
  refine r_iload G 4 rfl dL_law_1923 ?_
  refine r_iconst G (v := 2) (by decide) dL_law_1925 ?_
  refine r_iadd G dL_law_1926 ?_
  obtain ⟨g2, h⟩ := og h
  refine r_sld G hX hbl hbA (vin_in g2) dL_law_1927 ?_
  refine r_aload_n G 3 rfl rfl dL_law_1928 ?_
  obtain ⟨o3, e3, h⟩ := ob h
  refine r_callSixH G [.ref (ad 55), .int (ys (i + 1).toNatClampNeg), .int (ys (i + 2).toNatClampNeg), .ref qo] (qL_take hE hT hfl hC (ys (i + 1).toNatClampNeg) (ys (i + 2).toNatClampNeg) _ e3) gL_law_L_take rfl hdL_take ⟨Nat.le_of_ble_eq_true rfl, Nat.le_of_ble_eq_true rfl⟩ (Nat.le_of_ble_eq_true rfl) rfl ⟨by first | exact hcC | exact Nat.le_trans (Nat.le_add_right _ 8) hcC, by first | exact hcS | exact Nat.le_trans (Nat.le_add_right _ 40) hcS⟩ rfl rfl dL_law_1929 (fun k9 st9 hp9 => ?_) (fun r3 s3 hp hn3 => ?_)
  · subst hp9
    try dsimp only [Sum.elim_inl] at h
    cases h
  subst hp
  try dsimp only [Sum.elim_inr] at h
  refine r_istore G (lv' := [(0, .ref b), (1, .ref (ad 55)), (2, .ref (bd 67)), (3, .ref qo), (4, .int i), (5, .int r3)]) [1, 2, 3, 4, 5, 0] rfl (by decide) dL_law_1932 ?_
  refine r_aload_n G 2 rfl rfl dL_law_1934 ?_
  refine r_aload_n G 0 rfl rfl dL_law_1935 ?_
  refine r_iload G 4 rfl dL_law_1936 ?_
  refine r_iconst G (v := 1) (by decide) dL_law_1938 ?_
  refine r_iadd G dL_law_1939 ?_
  obtain ⟨g4, h⟩ := og h
  refine r_sld G hX hbl hbA (vin_in g4) dL_law_1940 ?_
  refine r_aload_n G 0 rfl rfl dL_law_1941 ?_
  refine r_iload G 4 rfl dL_law_1942 ?_
  refine r_iconst G (v := 2) (by decide) dL_law_1944 ?_
  refine r_iadd G dL_law_1945 ?_
  obtain ⟨g5, h⟩ := og h
  refine r_sld G hX hbl hbA (vin_in g5) dL_law_1946 ?_
  obtain ⟨o6, e6, h⟩ := ob h
  refine e_callVi G (fun x9 : mS => (s3.1, x9, s3.2.2)) (fun x9 => lW_m ad bd κ qo _ x9 _) rfl [.int (ys (i + 1).toNatClampNeg), .int (ys (i + 2).toNatClampNeg)] (qX8_take hE (ys (i + 1).toNatClampNeg) (ys (i + 2).toNatClampNeg) _ e6) ⟨146, 8, _, _, rfl, (lw_MO ad bd κ qo _), rfl⟩ gL_law_X8_take rfl hdX8_take ⟨Nat.le_of_ble_eq_true rfl, Nat.le_of_ble_eq_true rfl⟩ (Nat.le_of_ble_eq_true rfl) rfl ⟨by first | exact hcC | exact Nat.le_trans (Nat.le_add_right _ 8) hcC, by first | exact hcS | exact Nat.le_trans (Nat.le_add_right _ 40) hcS⟩ rfl rfl dL_law_1947 (fun r6 s6 hp hn6 => ?_)
  subst hp
  try dsimp only at h
  refine r_istore G (lv' := [(0, .ref b), (1, .ref (ad 55)), (2, .ref (bd 67)), (3, .ref qo), (4, .int i), (5, .int r3), (6, .int r6)]) [1, 2, 3, 4, 5, 6, 0] rfl (by decide) dL_law_1950 ?_
  refine r_aload_n G 2 rfl rfl dL_law_1952 ?_
  refine e_callVi G (fun x9 : mS => (s3.1, x9, s3.2.2)) (fun x9 => lW_m ad bd κ qo _ x9 _) rfl [] (qX8_thrown hE _) ⟨146, 8, _, _, rfl, (lw_MO ad bd κ qo _), rfl⟩ gL_law_X8_thrown rfl hdX8_thrown ⟨Nat.le_of_ble_eq_true rfl, Nat.le_of_ble_eq_true rfl⟩ (Nat.le_of_ble_eq_true rfl) rfl ⟨by first | exact hcC | exact Nat.le_trans (Nat.le_add_right _ 8) hcC, by first | exact hcS | exact Nat.le_trans (Nat.le_add_right _ 40) hcS⟩ rfl rfl dL_law_1953 (fun r7 s7 hp hn7 => ?_)
  obtain ⟨rfl, hs⟩ := hp
  have hs := hs.symm
  subst hs
  refine r_iload G 5 rfl dL_law_1956 ?_
  refine r_icmp_eq G (tgt := 1963) dL_law_1958 (by decide) (fun c => ?_) (fun c => ?_)
  · rw [if_pos c] at h
    refine r_iload G 5 rfl dL_law_1963 ?_
    refine r_if_ne G (tgt := 1980) dL_law_1965 (by decide) (fun c => ?_) (fun c => ?_)
    · rw [if_neg c] at h
      refine r_goto G (tgt := 2906) dL_law_1980 (by decide) ?_
      refine V.sub (lv' := [(0, .ref b), (1, .ref (ad 55)), (2, .ref (bd 67)), (3, .ref qo), (4, .int i)]) [0, 1, 2, 3, 4] rfl ?_
      have h := Option.some.inj h
      subst h
      exact V.widen (by first | exact Nat.le_refl _ | exact Nat.le_add_right _ _) (by first | exact Nat.le_refl _ | exact Nat.le_add_right _ _) hk
    · rw [if_pos c] at h
      refine r_aload_n G 3 rfl rfl dL_law_1968 ?_
      refine r_iconst G (v := 0) (by decide) dL_law_1969 ?_
      refine r_outld G dL_law_1970 ?_
      refine r_iload G 6 rfl dL_law_1971 ?_
      refine r_i2l G dL_law_1973 ?_
      refine r_lcmp G dL_law_1974 ?_
      refine r_if_eq G (tgt := 1980) dL_law_1975 (by decide) (fun c => ?_) (fun c => ?_)
      · rw [if_pos c] at h
        refine r_goto G (tgt := 2906) dL_law_1980 (by decide) ?_
        refine V.sub (lv' := [(0, .ref b), (1, .ref (ad 55)), (2, .ref (bd 67)), (3, .ref qo), (4, .int i)]) [0, 1, 2, 3, 4] rfl ?_
        have h := Option.some.inj h
        subst h
        exact V.widen (by first | exact Nat.le_refl _ | exact Nat.le_add_right _ _) (by first | exact Nat.le_refl _ | exact Nat.le_add_right _ _) hk
      · rw [if_neg c] at h
        refine r_iconst G (v := 0) (by decide) dL_law_1978 ?_
        cases h
  · rw [if_neg c] at h
    refine r_iconst G (v := 0) (by decide) dL_law_1961 ?_
    cases h

theorem hdL_spread : yL_spread.cls ≠ "java/lang/invoke/MethodHandle" ∧ yL_spread.cls ≠ "java/lang/invoke/VarHandle" ∧ (parseMethodDescriptor yL_spread.desc).map (fun d => d.parameters.length) = some 3 := by decide +kernel
theorem hdX8_spread : yX8_spread.cls = RX8 ∧ yX8_spread.cls ≠ "java/lang/invoke/MethodHandle" ∧ yX8_spread.cls ≠ "java/lang/invoke/VarHandle" ∧ (parseMethodDescriptor yX8_spread.desc).map (fun d => d.parameters.length) = some 1 := by decide +kernel
set_option maxHeartbeats 4000000 in
set_option maxRecDepth 100000 in
theorem wL_c28 {E : evT} {l : Launch} {D : va_G} {ad bd : Nat → Nat} {qo : Nat} {κ : Nat → ClassId} {kK kV : Nat → Nat} (hE : EvOk E) (hT : TOk E) (hfl : l.stackTraces = false) (hC : COk E) (hSt : SOk E kK kV) {Γ : cxT} (G : Cx (lW ad bd κ qo) D (tyA κ) E l Γ code RL wsL_law 9 room_1) {b L : Nat} {ys : Nat → Int32} (hX : va_X b L ys (xs Γ) (xH Γ)) (hbl : b < (xH Γ).size) (hbA : ¬ xA Γ b) {C S : Nat} (hcC : C + 8 ≤ room_1.cells) (hcS : S + 40 ≤ room_1.slots) (i : Int32) (s : lS) {o : lS} (hk : V (lW ad bd κ qo) D Γ o (C + 8) (S + 40) 2906 [(0, .ref b), (1, .ref (ad 55)), (2, .ref (bd 67)), (3, .ref qo), (4, .int i)] []) (h : fL_c28 L ys i s = some o) : V (lW ad bd κ qo) D Γ s C S 1983 [(0, .ref b), (1, .ref (ad 55)), (2, .ref (bd 67)), (3, .ref qo), (4, .int i)] [] := by
  rw [fL_c28] at h
  refine r_aload_n G 1 rfl rfl dL_law_1983 ?_
  refine r_aload_n G 0 rfl rfl dL_law_1984 ?_
  refine r_iload G 4 rfl dL_law_1985 ?_
  refine r_iconst G (v := 1) (by decide) dL_law_1987 ?_
  refine r_iadd G dL_law_1988 ?_
  obtain ⟨g1, h⟩ := og h
  refine r_sld G hX hbl hbA (vin_in g1) dL_law_1989 ?_
  refine r_aload_n G 3 rfl rfl dL_law_1990 ?_
  obtain ⟨o2, e2, h⟩ := ob h
  refine r_callSixH G [.ref (ad 55), .int (ys (i + 1).toNatClampNeg), .ref qo] (qL_spread hE hT hfl hC (ys (i + 1).toNatClampNeg) _ e2) gL_law_L_spread rfl hdL_spread ⟨Nat.le_of_ble_eq_true rfl, Nat.le_of_ble_eq_true rfl⟩ (Nat.le_of_ble_eq_true rfl) rfl ⟨by first | exact hcC | exact Nat.le_trans (Nat.le_add_right _ 8) hcC, by first | exact hcS | exact Nat.le_trans (Nat.le_add_right _ 40) hcS⟩ rfl rfl dL_law_1991 (fun k9 st9 hp9 => ?_) (fun r2 s2 hp hn2 => ?_)
  · subst hp9
    try dsimp only [Sum.elim_inl] at h
    cases h
  subst hp
  try dsimp only [Sum.elim_inr] at h
  refine r_istore G (lv' := [(0, .ref b), (1, .ref (ad 55)), (2, .ref (bd 67)), (3, .ref qo), (4, .int i), (5, .int r2)]) [1, 2, 3, 4, 5, 0] rfl (by decide) dL_law_1994 ?_
  refine r_aload_n G 2 rfl rfl dL_law_1996 ?_
  refine r_aload_n G 0 rfl rfl dL_law_1997 ?_
  refine r_iload G 4 rfl dL_law_1998 ?_
  refine r_iconst G (v := 1) (by decide) dL_law_2000 ?_
  refine r_iadd G dL_law_2001 ?_
  obtain ⟨g3, h⟩ := og h
  refine r_sld G hX hbl hbA (vin_in g3) dL_law_2002 ?_
  obtain ⟨o4, e4, h⟩ := ob h
  refine e_callVi G (fun x9 : mS => (s2.1, x9, s2.2.2)) (fun x9 => lW_m ad bd κ qo _ x9 _) rfl [.int (ys (i + 1).toNatClampNeg)] (qX8_spread hE (ys (i + 1).toNatClampNeg) _ e4) ⟨146, 8, _, _, rfl, (lw_MO ad bd κ qo _), rfl⟩ gL_law_X8_spread rfl hdX8_spread ⟨Nat.le_of_ble_eq_true rfl, Nat.le_of_ble_eq_true rfl⟩ (Nat.le_of_ble_eq_true rfl) rfl ⟨by first | exact hcC | exact Nat.le_trans (Nat.le_add_right _ 8) hcC, by first | exact hcS | exact Nat.le_trans (Nat.le_add_right _ 40) hcS⟩ rfl rfl dL_law_2003 (fun r4 s4 hp hn4 => ?_)
  subst hp
  try dsimp only at h
  refine r_istore G (lv' := [(0, .ref b), (1, .ref (ad 55)), (2, .ref (bd 67)), (3, .ref qo), (4, .int i), (5, .int r2), (6, .int r4)]) [1, 2, 3, 4, 5, 6, 0] rfl (by decide) dL_law_2006 ?_
  refine r_aload_n G 2 rfl rfl dL_law_2008 ?_
  refine e_callVi G (fun x9 : mS => (s2.1, x9, s2.2.2)) (fun x9 => lW_m ad bd κ qo _ x9 _) rfl [] (qX8_thrown hE _) ⟨146, 8, _, _, rfl, (lw_MO ad bd κ qo _), rfl⟩ gL_law_X8_thrown rfl hdX8_thrown ⟨Nat.le_of_ble_eq_true rfl, Nat.le_of_ble_eq_true rfl⟩ (Nat.le_of_ble_eq_true rfl) rfl ⟨by first | exact hcC | exact Nat.le_trans (Nat.le_add_right _ 8) hcC, by first | exact hcS | exact Nat.le_trans (Nat.le_add_right _ 40) hcS⟩ rfl rfl dL_law_2009 (fun r5 s5 hp hn5 => ?_)
  obtain ⟨rfl, hs⟩ := hp
  have hs := hs.symm
  subst hs
  refine r_iload G 5 rfl dL_law_2012 ?_
  refine r_icmp_eq G (tgt := 2019) dL_law_2014 (by decide) (fun c => ?_) (fun c => ?_)
  · rw [if_pos c] at h
    refine r_iload G 5 rfl dL_law_2019 ?_
    refine r_if_ne G (tgt := 2036) dL_law_2021 (by decide) (fun c => ?_) (fun c => ?_)
    · rw [if_neg c] at h
      refine r_goto G (tgt := 2906) dL_law_2036 (by decide) ?_
      refine V.sub (lv' := [(0, .ref b), (1, .ref (ad 55)), (2, .ref (bd 67)), (3, .ref qo), (4, .int i)]) [0, 1, 2, 3, 4] rfl ?_
      have h := Option.some.inj h
      subst h
      exact V.widen (by first | exact Nat.le_refl _ | exact Nat.le_add_right _ _) (by first | exact Nat.le_refl _ | exact Nat.le_add_right _ _) hk
    · rw [if_pos c] at h
      refine r_aload_n G 3 rfl rfl dL_law_2024 ?_
      refine r_iconst G (v := 0) (by decide) dL_law_2025 ?_
      refine r_outld G dL_law_2026 ?_
      refine r_iload G 6 rfl dL_law_2027 ?_
      refine r_i2l G dL_law_2029 ?_
      refine r_lcmp G dL_law_2030 ?_
      refine r_if_eq G (tgt := 2036) dL_law_2031 (by decide) (fun c => ?_) (fun c => ?_)
      · rw [if_pos c] at h
        refine r_goto G (tgt := 2906) dL_law_2036 (by decide) ?_
        refine V.sub (lv' := [(0, .ref b), (1, .ref (ad 55)), (2, .ref (bd 67)), (3, .ref qo), (4, .int i)]) [0, 1, 2, 3, 4] rfl ?_
        have h := Option.some.inj h
        subst h
        exact V.widen (by first | exact Nat.le_refl _ | exact Nat.le_add_right _ _) (by first | exact Nat.le_refl _ | exact Nat.le_add_right _ _) hk
      · rw [if_neg c] at h
        refine r_iconst G (v := 0) (by decide) dL_law_2034 ?_
        cases h
  · rw [if_neg c] at h
    refine r_iconst G (v := 0) (by decide) dL_law_2017 ?_
    cases h

theorem hdL_isClosed : yL_isClosed.cls ≠ "java/lang/invoke/MethodHandle" ∧ yL_isClosed.cls ≠ "java/lang/invoke/VarHandle" ∧ (parseMethodDescriptor yL_isClosed.desc).map (fun d => d.parameters.length) = some 3 := by decide +kernel
theorem hdX8_isClosed : yX8_isClosed.cls = RX8 ∧ yX8_isClosed.cls ≠ "java/lang/invoke/MethodHandle" ∧ yX8_isClosed.cls ≠ "java/lang/invoke/VarHandle" ∧ (parseMethodDescriptor yX8_isClosed.desc).map (fun d => d.parameters.length) = some 1 := by decide +kernel
set_option maxHeartbeats 4000000 in
set_option maxRecDepth 100000 in
theorem wL_c29 {E : evT} {l : Launch} {D : va_G} {ad bd : Nat → Nat} {qo : Nat} {κ : Nat → ClassId} {kK kV : Nat → Nat} (hE : EvOk E) (hT : TOk E) (hfl : l.stackTraces = false) (hC : COk E) (hSt : SOk E kK kV) {Γ : cxT} (G : Cx (lW ad bd κ qo) D (tyA κ) E l Γ code RL wsL_law 9 room_1) {b L : Nat} {ys : Nat → Int32} (hX : va_X b L ys (xs Γ) (xH Γ)) (hbl : b < (xH Γ).size) (hbA : ¬ xA Γ b) {C S : Nat} (hcC : C + 8 ≤ room_1.cells) (hcS : S + 40 ≤ room_1.slots) (i : Int32) (s : lS) {o : lS} (hk : V (lW ad bd κ qo) D Γ o (C + 8) (S + 40) 2906 [(0, .ref b), (1, .ref (ad 55)), (2, .ref (bd 67)), (3, .ref qo), (4, .int i)] []) (h : fL_c29 L ys i s = some o) : V (lW ad bd κ qo) D Γ s C S 2039 [(0, .ref b), (1, .ref (ad 55)), (2, .ref (bd 67)), (3, .ref qo), (4, .int i)] [] := by
  rw [fL_c29] at h
  refine r_aload_n G 1 rfl rfl dL_law_2039 ?_
  refine r_aload_n G 0 rfl rfl dL_law_2040 ?_
  refine r_iload G 4 rfl dL_law_2041 ?_
  refine r_iconst G (v := 1) (by decide) dL_law_2043 ?_
  refine r_iadd G dL_law_2044 ?_
  obtain ⟨g1, h⟩ := og h
  refine r_sld G hX hbl hbA (vin_in g1) dL_law_2045 ?_
  refine r_aload_n G 3 rfl rfl dL_law_2046 ?_
  obtain ⟨o2, e2, h⟩ := ob h
  refine r_callSixH G [.ref (ad 55), .int (ys (i + 1).toNatClampNeg), .ref qo] (qL_isClosed hE hT hfl hC (ys (i + 1).toNatClampNeg) _ e2) gL_law_L_isClosed rfl hdL_isClosed ⟨Nat.le_of_ble_eq_true rfl, Nat.le_of_ble_eq_true rfl⟩ (Nat.le_of_ble_eq_true rfl) rfl ⟨by first | exact hcC | exact Nat.le_trans (Nat.le_add_right _ 8) hcC, by first | exact hcS | exact Nat.le_trans (Nat.le_add_right _ 40) hcS⟩ rfl rfl dL_law_2047 (fun k9 st9 hp9 => ?_) (fun r2 s2 hp hn2 => ?_)
  · subst hp9
    try dsimp only [Sum.elim_inl] at h
    cases h
  subst hp
  try dsimp only [Sum.elim_inr] at h
  refine r_istore G (lv' := [(0, .ref b), (1, .ref (ad 55)), (2, .ref (bd 67)), (3, .ref qo), (4, .int i), (5, .int r2)]) [1, 2, 3, 4, 5, 0] rfl (by decide) dL_law_2050 ?_
  refine r_aload_n G 2 rfl rfl dL_law_2052 ?_
  refine r_aload_n G 0 rfl rfl dL_law_2053 ?_
  refine r_iload G 4 rfl dL_law_2054 ?_
  refine r_iconst G (v := 1) (by decide) dL_law_2056 ?_
  refine r_iadd G dL_law_2057 ?_
  obtain ⟨g3, h⟩ := og h
  refine r_sld G hX hbl hbA (vin_in g3) dL_law_2058 ?_
  obtain ⟨o4, e4, h⟩ := ob h
  refine e_callVi G (fun x9 : mS => (s2.1, x9, s2.2.2)) (fun x9 => lW_m ad bd κ qo _ x9 _) rfl [.int (ys (i + 1).toNatClampNeg)] (qX8_isClosed hE (ys (i + 1).toNatClampNeg) _ e4) ⟨146, 8, _, _, rfl, (lw_MO ad bd κ qo _), rfl⟩ gL_law_X8_isClosed rfl hdX8_isClosed ⟨Nat.le_of_ble_eq_true rfl, Nat.le_of_ble_eq_true rfl⟩ (Nat.le_of_ble_eq_true rfl) rfl ⟨by first | exact hcC | exact Nat.le_trans (Nat.le_add_right _ 8) hcC, by first | exact hcS | exact Nat.le_trans (Nat.le_add_right _ 40) hcS⟩ rfl rfl dL_law_2059 (fun r4 s4 hp hn4 => ?_)
  subst hp
  try dsimp only at h
  refine r_istore G (lv' := [(0, .ref b), (1, .ref (ad 55)), (2, .ref (bd 67)), (3, .ref qo), (4, .int i), (5, .int r2), (6, .int r4)]) [1, 2, 3, 4, 5, 6, 0] rfl (by decide) dL_law_2062 ?_
  refine r_aload_n G 2 rfl rfl dL_law_2064 ?_
  refine e_callVi G (fun x9 : mS => (s2.1, x9, s2.2.2)) (fun x9 => lW_m ad bd κ qo _ x9 _) rfl [] (qX8_thrown hE _) ⟨146, 8, _, _, rfl, (lw_MO ad bd κ qo _), rfl⟩ gL_law_X8_thrown rfl hdX8_thrown ⟨Nat.le_of_ble_eq_true rfl, Nat.le_of_ble_eq_true rfl⟩ (Nat.le_of_ble_eq_true rfl) rfl ⟨by first | exact hcC | exact Nat.le_trans (Nat.le_add_right _ 8) hcC, by first | exact hcS | exact Nat.le_trans (Nat.le_add_right _ 40) hcS⟩ rfl rfl dL_law_2065 (fun r5 s5 hp hn5 => ?_)
  obtain ⟨rfl, hs⟩ := hp
  have hs := hs.symm
  subst hs
  refine r_iload G 5 rfl dL_law_2068 ?_
  refine r_icmp_eq G (tgt := 2075) dL_law_2070 (by decide) (fun c => ?_) (fun c => ?_)
  · rw [if_pos c] at h
    refine r_iload G 5 rfl dL_law_2075 ?_
    refine r_if_ne G (tgt := 2099) dL_law_2077 (by decide) (fun c => ?_) (fun c => ?_)
    · rw [if_neg c] at h
      refine r_goto G (tgt := 2906) dL_law_2099 (by decide) ?_
      refine V.sub (lv' := [(0, .ref b), (1, .ref (ad 55)), (2, .ref (bd 67)), (3, .ref qo), (4, .int i)]) [0, 1, 2, 3, 4] rfl ?_
      have h := Option.some.inj h
      subst h
      exact V.widen (by first | exact Nat.le_refl _ | exact Nat.le_add_right _ _) (by first | exact Nat.le_refl _ | exact Nat.le_add_right _ _) hk
    · rw [if_pos c] at h
      refine r_aload_n G 3 rfl rfl dL_law_2080 ?_
      refine r_iconst G (v := 0) (by decide) dL_law_2081 ?_
      refine r_outld G dL_law_2082 ?_
      refine r_iload G 6 rfl dL_law_2083 ?_
      refine r_if_eq G (tgt := 2092) dL_law_2085 (by decide) (fun c => ?_) (fun c => ?_)
      · rw [if_pos c] at h
        refine r_lconst G (v := 0) (by decide) dL_law_2092 ?_
        refine r_lcmp G dL_law_2093 ?_
        refine r_if_eq G (tgt := 2099) dL_law_2094 (by decide) (fun c => ?_) (fun c => ?_)
        · rw [if_pos c] at h
          refine r_goto G (tgt := 2906) dL_law_2099 (by decide) ?_
          refine V.sub (lv' := [(0, .ref b), (1, .ref (ad 55)), (2, .ref (bd 67)), (3, .ref qo), (4, .int i)]) [0, 1, 2, 3, 4] rfl ?_
          have h := Option.some.inj h
          subst h
          exact V.widen (by first | exact Nat.le_refl _ | exact Nat.le_add_right _ _) (by first | exact Nat.le_refl _ | exact Nat.le_add_right _ _) hk
        · rw [if_neg c] at h
          refine r_iconst G (v := 0) (by decide) dL_law_2097 ?_
          cases h
      · rw [if_neg c] at h
        refine r_lconst G (v := 1) (by decide) dL_law_2088 ?_
        refine r_goto G (tgt := 2093) dL_law_2089 (by decide) ?_
        refine r_lcmp G dL_law_2093 ?_
        refine r_if_eq G (tgt := 2099) dL_law_2094 (by decide) (fun c => ?_) (fun c => ?_)
        · rw [if_pos c] at h
          refine r_goto G (tgt := 2906) dL_law_2099 (by decide) ?_
          refine V.sub (lv' := [(0, .ref b), (1, .ref (ad 55)), (2, .ref (bd 67)), (3, .ref qo), (4, .int i)]) [0, 1, 2, 3, 4] rfl ?_
          have h := Option.some.inj h
          subst h
          exact V.widen (by first | exact Nat.le_refl _ | exact Nat.le_add_right _ _) (by first | exact Nat.le_refl _ | exact Nat.le_add_right _ _) hk
        · rw [if_neg c] at h
          refine r_iconst G (v := 0) (by decide) dL_law_2097 ?_
          cases h
  · rw [if_neg c] at h
    refine r_iconst G (v := 0) (by decide) dL_law_2073 ?_
    cases h

theorem hdX7_isChain : yX7_isChain.cls = RX7 ∧ yX7_isChain.cls ≠ "java/lang/invoke/MethodHandle" ∧ yX7_isChain.cls ≠ "java/lang/invoke/VarHandle" ∧ (parseMethodDescriptor yX7_isChain.desc).map (fun d => d.parameters.length) = some 0 := by decide +kernel
theorem hdX8_isChain : yX8_isChain.cls = RX8 ∧ yX8_isChain.cls ≠ "java/lang/invoke/MethodHandle" ∧ yX8_isChain.cls ≠ "java/lang/invoke/VarHandle" ∧ (parseMethodDescriptor yX8_isChain.desc).map (fun d => d.parameters.length) = some 0 := by decide +kernel
set_option maxHeartbeats 4000000 in
set_option maxRecDepth 100000 in
theorem wL_c30 {E : evT} {l : Launch} {D : va_G} {ad bd : Nat → Nat} {qo : Nat} {κ : Nat → ClassId} {kK kV : Nat → Nat} (hE : EvOk E) (hT : TOk E) (hfl : l.stackTraces = false) (hC : COk E) (hSt : SOk E kK kV) {Γ : cxT} (G : Cx (lW ad bd κ qo) D (tyA κ) E l Γ code RL wsL_law 9 room_1) {b L : Nat} {ys : Nat → Int32} (hX : va_X b L ys (xs Γ) (xH Γ)) (hbl : b < (xH Γ).size) (hbA : ¬ xA Γ b) {C S : Nat} (hcC : C + 8 ≤ room_1.cells) (hcS : S + 40 ≤ room_1.slots) (i : Int32) (s : lS) {o : lS} (hk : V (lW ad bd κ qo) D Γ o (C + 8) (S + 40) 2906 [(0, .ref b), (1, .ref (ad 55)), (2, .ref (bd 67)), (3, .ref qo), (4, .int i)] []) (h : fL_c30 L ys i s = some o) : V (lW ad bd κ qo) D Γ s C S 2102 [(0, .ref b), (1, .ref (ad 55)), (2, .ref (bd 67)), (3, .ref qo), (4, .int i)] [] := by
  rw [fL_c30] at h
  refine r_aload_n G 1 rfl rfl dL_law_2102 ?_
  obtain ⟨o1, e1, h⟩ := ob h
  refine e_callVi G (fun x9 : cS => (x9, s.2.1, s.2.2)) (fun x9 => lW_c ad bd κ qo x9 _ _) rfl [] (qX7_isChain hE _ e1) ⟨55, 7, _, _, rfl, (lw_SC ad bd κ qo _), rfl⟩ gL_law_X7_isChain rfl hdX7_isChain ⟨Nat.le_of_ble_eq_true rfl, Nat.le_of_ble_eq_true rfl⟩ (Nat.le_of_ble_eq_true rfl) rfl ⟨by first | exact hcC | exact Nat.le_trans (Nat.le_add_right _ 8) hcC, by first | exact hcS | exact Nat.le_trans (Nat.le_add_right _ 40) hcS⟩ rfl rfl dL_law_2103 (fun r1 s1 hp hn1 => ?_)
  subst hp
  try dsimp only at h
  refine r_aload_n G 2 rfl rfl dL_law_2106 ?_
  obtain ⟨o2, e2, h⟩ := ob h
  refine e_callVi G (fun x9 : mS => (s1, x9, s.2.2)) (fun x9 => lW_m ad bd κ qo _ x9 _) rfl [] (qX8_isChain hE _ e2) ⟨146, 8, _, _, rfl, (lw_MO ad bd κ qo _), rfl⟩ gL_law_X8_isChain rfl hdX8_isChain ⟨Nat.le_of_ble_eq_true rfl, Nat.le_of_ble_eq_true rfl⟩ (Nat.le_of_ble_eq_true rfl) rfl ⟨by first | exact hcC | exact Nat.le_trans (Nat.le_add_right _ 8) hcC, by first | exact hcS | exact Nat.le_trans (Nat.le_add_right _ 40) hcS⟩ rfl rfl dL_law_2107 (fun r2 s2 hp hn2 => ?_)
  subst hp
  try dsimp only at h
  refine r_icmp_eq G (tgt := 2906) dL_law_2110 (by decide) (fun c => ?_) (fun c => ?_)
  · rw [if_pos c] at h
    have h := Option.some.inj h
    subst h
    exact V.widen (by first | exact Nat.le_refl _ | exact Nat.le_add_right _ _) (by first | exact Nat.le_refl _ | exact Nat.le_add_right _ _) hk
  · rw [if_neg c] at h
    refine r_iconst G (v := 0) (by decide) dL_law_2113 ?_
    cases h

theorem hdX7_primes : yX7_primes.cls = RX7 ∧ yX7_primes.cls ≠ "java/lang/invoke/MethodHandle" ∧ yX7_primes.cls ≠ "java/lang/invoke/VarHandle" ∧ (parseMethodDescriptor yX7_primes.desc).map (fun d => d.parameters.length) = some 0 := by decide +kernel
theorem hdX8_primes : yX8_primes.cls = RX8 ∧ yX8_primes.cls ≠ "java/lang/invoke/MethodHandle" ∧ yX8_primes.cls ≠ "java/lang/invoke/VarHandle" ∧ (parseMethodDescriptor yX8_primes.desc).map (fun d => d.parameters.length) = some 0 := by decide +kernel
set_option maxHeartbeats 4000000 in
set_option maxRecDepth 100000 in
theorem wL_c31 {E : evT} {l : Launch} {D : va_G} {ad bd : Nat → Nat} {qo : Nat} {κ : Nat → ClassId} {kK kV : Nat → Nat} (hE : EvOk E) (hT : TOk E) (hfl : l.stackTraces = false) (hC : COk E) (hSt : SOk E kK kV) {Γ : cxT} (G : Cx (lW ad bd κ qo) D (tyA κ) E l Γ code RL wsL_law 9 room_1) {b L : Nat} {ys : Nat → Int32} (hX : va_X b L ys (xs Γ) (xH Γ)) (hbl : b < (xH Γ).size) (hbA : ¬ xA Γ b) {C S : Nat} (hcC : C + 8 ≤ room_1.cells) (hcS : S + 40 ≤ room_1.slots) (i : Int32) (s : lS) {o : lS} (hk : V (lW ad bd κ qo) D Γ o (C + 8) (S + 40) 2906 [(0, .ref b), (1, .ref (ad 55)), (2, .ref (bd 67)), (3, .ref qo), (4, .int i)] []) (h : fL_c31 L ys i s = some o) : V (lW ad bd κ qo) D Γ s C S 2115 [(0, .ref b), (1, .ref (ad 55)), (2, .ref (bd 67)), (3, .ref qo), (4, .int i)] [] := by
  rw [fL_c31] at h
  refine r_aload_n G 1 rfl rfl dL_law_2115 ?_
  obtain ⟨o1, e1, h⟩ := ob h
  refine e_callVi G (fun x9 : cS => (x9, s.2.1, s.2.2)) (fun x9 => lW_c ad bd κ qo x9 _ _) rfl [] (qX7_primes hE _ e1) ⟨55, 7, _, _, rfl, (lw_SC ad bd κ qo _), rfl⟩ gL_law_X7_primes rfl hdX7_primes ⟨Nat.le_of_ble_eq_true rfl, Nat.le_of_ble_eq_true rfl⟩ (Nat.le_of_ble_eq_true rfl) rfl ⟨by first | exact hcC | exact Nat.le_trans (Nat.le_add_right _ 8) hcC, by first | exact hcS | exact Nat.le_trans (Nat.le_add_right _ 40) hcS⟩ rfl rfl dL_law_2116 (fun r1 s1 hp hn1 => ?_)
  subst hp
  try dsimp only at h
  refine r_aload_n G 2 rfl rfl dL_law_2119 ?_
  obtain ⟨o2, e2, h⟩ := ob h
  refine e_callVi G (fun x9 : mS => (s1, x9, s.2.2)) (fun x9 => lW_m ad bd κ qo _ x9 _) rfl [] (qX8_primes hE _ e2) ⟨146, 8, _, _, rfl, (lw_MO ad bd κ qo _), rfl⟩ gL_law_X8_primes rfl hdX8_primes ⟨Nat.le_of_ble_eq_true rfl, Nat.le_of_ble_eq_true rfl⟩ (Nat.le_of_ble_eq_true rfl) rfl ⟨by first | exact hcC | exact Nat.le_trans (Nat.le_add_right _ 8) hcC, by first | exact hcS | exact Nat.le_trans (Nat.le_add_right _ 40) hcS⟩ rfl rfl dL_law_2120 (fun r2 s2 hp hn2 => ?_)
  subst hp
  try dsimp only at h
  refine r_icmp_eq G (tgt := 2906) dL_law_2123 (by decide) (fun c => ?_) (fun c => ?_)
  · rw [if_pos c] at h
    have h := Option.some.inj h
    subst h
    exact V.widen (by first | exact Nat.le_refl _ | exact Nat.le_add_right _ _) (by first | exact Nat.le_refl _ | exact Nat.le_add_right _ _) hk
  · rw [if_neg c] at h
    refine r_iconst G (v := 0) (by decide) dL_law_2126 ?_
    cases h
