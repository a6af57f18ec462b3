theorem hdL_least : yL_least.cls ≠ "java/lang/invoke/MethodHandle" ∧ yL_least.cls ≠ "java/lang/invoke/VarHandle" ∧ (parseMethodDescriptor yL_least.desc).map (fun d => d.parameters.length) = some 3 := by decide +kernel
theorem hdX8_least : yX8_least.cls = RX8 ∧ yX8_least.cls ≠ "java/lang/invoke/MethodHandle" ∧ yX8_least.cls ≠ "java/lang/invoke/VarHandle" ∧ (parseMethodDescriptor yX8_least.desc).map (fun d => d.parameters.length) = some 1 := by decide +kernel
set_option maxHeartbeats 4000000 in
set_option maxRecDepth 100000 in
theorem wL_c8 {E : evT} {l : Launch} {D : va_G} {ad bd : Nat → Nat} {qo : Nat} {κ : Nat → ClassId} {kK kV : Nat → Nat} (hE : EvOk E) (hT : TOk E) (hfl : l.stackTraces = false) (hC : COk E) (hSt : SOk E kK kV) {Γ : cxT} (G : Cx (lW ad bd κ qo) D (tyA κ) E l Γ code RL wsL_law 9 room_1) {b L : Nat} {ys : Nat → Int32} (hX : va_X b L ys (xs Γ) (xH Γ)) (hbl : b < (xH Γ).size) (hbA : ¬ xA Γ b) {C S : Nat} (hcC : C + 8 ≤ room_1.cells) (hcS : S + 40 ≤ room_1.slots) (i : Int32) (s : lS) {o : lS} (hk : V (lW ad bd κ qo) D Γ o (C + 8) (S + 40) 2906 [(0, .ref b), (1, .ref (ad 55)), (2, .ref (bd 67)), (3, .ref qo), (4, .int i)] []) (h : fL_c8 L ys i s = some o) : V (lW ad bd κ qo) D Γ s C S 797 [(0, .ref b), (1, .ref (ad 55)), (2, .ref (bd 67)), (3, .ref qo), (4, .int i)] [] := by
  rw [fL_c8] at h
  refine r_aload_n G 1 rfl rfl dL_law_797 ?_
  refine r_aload_n G 0 rfl rfl dL_law_798 ?_
  refine r_iload G 4 rfl dL_law_799 ?_
  refine r_iconst G (v := 1) (by decide) dL_law_801 ?_
  refine r_iadd G dL_law_802 ?_
  obtain ⟨g1, h⟩ := og h
  refine r_sld G hX hbl hbA (vin_in g1) dL_law_803 ?_
  refine r_aload_n G 3 rfl rfl dL_law_804 ?_
  obtain ⟨o2, e2, h⟩ := ob h
  refine r_callSixH G [.ref (ad 55), .int (ys (i + 1).toNatClampNeg), .ref qo] (qL_least hE hT hfl hC (ys (i + 1).toNatClampNeg) _ e2) gL_law_L_least rfl hdL_least ⟨Nat.le_of_ble_eq_true rfl, Nat.le_of_ble_eq_true rfl⟩ (Nat.le_of_ble_eq_true rfl) rfl ⟨by first | exact hcC | exact Nat.le_trans (Nat.le_add_right _ 8) hcC, by first | exact hcS | exact Nat.le_trans (Nat.le_add_right _ 40) hcS⟩ rfl rfl dL_law_805 (fun k9 st9 hp9 => ?_) (fun r2 s2 hp hn2 => ?_)
  · subst hp9
    try dsimp only [Sum.elim_inl] at h
    cases h
  subst hp
  try dsimp only [Sum.elim_inr] at h
  refine r_istore G (lv' := [(0, .ref b), (1, .ref (ad 55)), (2, .ref (bd 67)), (3, .ref qo), (4, .int i), (5, .int r2)]) [1, 2, 3, 4, 5, 0] rfl (by decide) dL_law_808 ?_
  refine r_aload_n G 2 rfl rfl dL_law_810 ?_
  refine r_aload_n G 0 rfl rfl dL_law_811 ?_
  refine r_iload G 4 rfl dL_law_812 ?_
  refine r_iconst G (v := 1) (by decide) dL_law_814 ?_
  refine r_iadd G dL_law_815 ?_
  obtain ⟨g3, h⟩ := og h
  refine r_sld G hX hbl hbA (vin_in g3) dL_law_816 ?_
  obtain ⟨o4, e4, h⟩ := ob h
  refine e_callVi G (fun x9 : mS => (s2.1, x9, s2.2.2)) (fun x9 => lW_m ad bd κ qo _ x9 _) rfl [.int (ys (i + 1).toNatClampNeg)] (qX8_least hE (ys (i + 1).toNatClampNeg) _ e4) ⟨146, 8, _, _, rfl, (lw_MO ad bd κ qo _), rfl⟩ gL_law_X8_least rfl hdX8_least ⟨Nat.le_of_ble_eq_true rfl, Nat.le_of_ble_eq_true rfl⟩ (Nat.le_of_ble_eq_true rfl) rfl ⟨by first | exact hcC | exact Nat.le_trans (Nat.le_add_right _ 8) hcC, by first | exact hcS | exact Nat.le_trans (Nat.le_add_right _ 40) hcS⟩ rfl rfl dL_law_817 (fun r4 s4 hp hn4 => ?_)
  subst hp
  try dsimp only at h
  refine r_istore G (lv' := [(0, .ref b), (1, .ref (ad 55)), (2, .ref (bd 67)), (3, .ref qo), (4, .int i), (5, .int r2), (6, .int r4)]) [1, 2, 3, 4, 5, 6, 0] rfl (by decide) dL_law_820 ?_
  refine r_aload_n G 2 rfl rfl dL_law_822 ?_
  refine e_callVi G (fun x9 : mS => (s2.1, x9, s2.2.2)) (fun x9 => lW_m ad bd κ qo _ x9 _) rfl [] (qX8_thrown hE _) ⟨146, 8, _, _, rfl, (lw_MO ad bd κ qo _), rfl⟩ gL_law_X8_thrown rfl hdX8_thrown ⟨Nat.le_of_ble_eq_true rfl, Nat.le_of_ble_eq_true rfl⟩ (Nat.le_of_ble_eq_true rfl) rfl ⟨by first | exact hcC | exact Nat.le_trans (Nat.le_add_right _ 8) hcC, by first | exact hcS | exact Nat.le_trans (Nat.le_add_right _ 40) hcS⟩ rfl rfl dL_law_823 (fun r5 s5 hp hn5 => ?_)
  obtain ⟨rfl, hs⟩ := hp
  have hs := hs.symm
  subst hs
  refine r_iload G 5 rfl dL_law_826 ?_
  refine r_icmp_eq G (tgt := 833) dL_law_828 (by decide) (fun c => ?_) (fun c => ?_)
  · rw [if_pos c] at h
    refine r_iload G 5 rfl dL_law_833 ?_
    refine r_if_ne G (tgt := 850) dL_law_835 (by decide) (fun c => ?_) (fun c => ?_)
    · rw [if_neg c] at h
      refine r_goto G (tgt := 2906) dL_law_850 (by decide) ?_
      refine V.sub (lv' := [(0, .ref b), (1, .ref (ad 55)), (2, .ref (bd 67)), (3, .ref qo), (4, .int i)]) [0, 1, 2, 3, 4] rfl ?_
      have h := Option.some.inj h
      subst h
      exact V.widen (by first | exact Nat.le_refl _ | exact Nat.le_add_right _ _) (by first | exact Nat.le_refl _ | exact Nat.le_add_right _ _) hk
    · rw [if_pos c] at h
      refine r_aload_n G 3 rfl rfl dL_law_838 ?_
      refine r_iconst G (v := 0) (by decide) dL_law_839 ?_
      refine r_outld G dL_law_840 ?_
      refine r_iload G 6 rfl dL_law_841 ?_
      refine r_i2l G dL_law_843 ?_
      refine r_lcmp G dL_law_844 ?_
      refine r_if_eq G (tgt := 850) dL_law_845 (by decide) (fun c => ?_) (fun c => ?_)
      · rw [if_pos c] at h
        refine r_goto G (tgt := 2906) dL_law_850 (by decide) ?_
        refine V.sub (lv' := [(0, .ref b), (1, .ref (ad 55)), (2, .ref (bd 67)), (3, .ref qo), (4, .int i)]) [0, 1, 2, 3, 4] rfl ?_
        have h := Option.some.inj h
        subst h
        exact V.widen (by first | exact Nat.le_refl _ | exact Nat.le_add_right _ _) (by first | exact Nat.le_refl _ | exact Nat.le_add_right _ _) hk
      · rw [if_neg c] at h
        refine r_iconst G (v := 0) (by decide) dL_law_848 ?_
        cases h
  · rw [if_neg c] at h
    refine r_iconst G (v := 0) (by decide) dL_law_831 ?_
    cases h

theorem hdL_greatest : yL_greatest.cls ≠ "java/lang/invoke/MethodHandle" ∧ yL_greatest.cls ≠ "java/lang/invoke/VarHandle" ∧ (parseMethodDescriptor yL_greatest.desc).map (fun d => d.parameters.length) = some 3 := by decide +kernel
theorem hdX8_greatest : yX8_greatest.cls = RX8 ∧ yX8_greatest.cls ≠ "java/lang/invoke/MethodHandle" ∧ yX8_greatest.cls ≠ "java/lang/invoke/VarHandle" ∧ (parseMethodDescriptor yX8_greatest.desc).map (fun d => d.parameters.length) = some 1 := by decide +kernel
set_option maxHeartbeats 4000000 in
set_option maxRecDepth 100000 in
theorem wL_c9 {E : evT} {l : Launch} {D : va_G} {ad bd : Nat → Nat} {qo : Nat} {κ : Nat → ClassId} {kK kV : Nat → Nat} (hE : EvOk E) (hT : TOk E) (hfl : l.stackTraces = false) (hC : COk E) (hSt : SOk E kK kV) {Γ : cxT} (G : Cx (lW ad bd κ qo) D (tyA κ) E l Γ code RL wsL_law 9 room_1) {b L : Nat} {ys : Nat → Int32} (hX : va_X b L ys (xs Γ) (xH Γ)) (hbl : b < (xH Γ).size) (hbA : ¬ xA Γ b) {C S : Nat} (hcC : C + 8 ≤ room_1.cells) (hcS : S + 40 ≤ room_1.slots) (i : Int32) (s : lS) {o : lS} (hk : V (lW ad bd κ qo) D Γ o (C + 8) (S + 40) 2906 [(0, .ref b), (1, .ref (ad 55)), (2, .ref (bd 67)), (3, .ref qo), (4, .int i)] []) (h : fL_c9 L ys i s = some o) : V (lW ad bd κ qo) D Γ s C S 853 [(0, .ref b), (1, .ref (ad 55)), (2, .ref (bd 67)), (3, .ref qo), (4, .int i)] [] := by
  rw [fL_c9] at h
  refine r_aload_n G 1 rfl rfl dL_law_853 ?_
  refine r_aload_n G 0 rfl rfl dL_law_854 ?_
  refine r_iload G 4 rfl dL_law_855 ?_
  refine r_iconst G (v := 1) (by decide) dL_law_857 ?_
  refine r_iadd G dL_law_858 ?_
  obtain ⟨g1, h⟩ := og h
  refine r_sld G hX hbl hbA (vin_in g1) dL_law_859 ?_
  refine r_aload_n G 3 rfl rfl dL_law_860 ?_
  obtain ⟨o2, e2, h⟩ := ob h
  refine r_callSixH G [.ref (ad 55), .int (ys (i + 1).toNatClampNeg), .ref qo] (qL_greatest hE hT hfl hC (ys (i + 1).toNatClampNeg) _ e2) gL_law_L_greatest rfl hdL_greatest ⟨Nat.le_of_ble_eq_true rfl, Nat.le_of_ble_eq_true rfl⟩ (Nat.le_of_ble_eq_true rfl) rfl ⟨by first | exact hcC | exact Nat.le_trans (Nat.le_add_right _ 8) hcC, by first | exact hcS | exact Nat.le_trans (Nat.le_add_right _ 40) hcS⟩ rfl rfl dL_law_861 (fun k9 st9 hp9 => ?_) (fun r2 s2 hp hn2 => ?_)
  · subst hp9
    try dsimp only [Sum.elim_inl] at h
    cases h
  subst hp
  try dsimp only [Sum.elim_inr] at h
  refine r_istore G (lv' := [(0, .ref b), (1, .ref (ad 55)), (2, .ref (bd 67)), (3, .ref qo), (4, .int i), (5, .int r2)]) [1, 2, 3, 4, 5, 0] rfl (by decide) dL_law_864 ?_
  refine r_aload_n G 2 rfl rfl dL_law_866 ?_
  refine r_aload_n G 0 rfl rfl dL_law_867 ?_
  refine r_iload G 4 rfl dL_law_868 ?_
  refine r_iconst G (v := 1) (by decide) dL_law_870 ?_
  refine r_iadd G dL_law_871 ?_
  obtain ⟨g3, h⟩ := og h
  refine r_sld G hX hbl hbA (vin_in g3) dL_law_872 ?_
  obtain ⟨o4, e4, h⟩ := ob h
  refine e_callVi G (fun x9 : mS => (s2.1, x9, s2.2.2)) (fun x9 => lW_m ad bd κ qo _ x9 _) rfl [.int (ys (i + 1).toNatClampNeg)] (qX8_greatest hE (ys (i + 1).toNatClampNeg) _ e4) ⟨146, 8, _, _, rfl, (lw_MO ad bd κ qo _), rfl⟩ gL_law_X8_greatest rfl hdX8_greatest ⟨Nat.le_of_ble_eq_true rfl, Nat.le_of_ble_eq_true rfl⟩ (Nat.le_of_ble_eq_true rfl) rfl ⟨by first | exact hcC | exact Nat.le_trans (Nat.le_add_right _ 8) hcC, by first | exact hcS | exact Nat.le_trans (Nat.le_add_right _ 40) hcS⟩ rfl rfl dL_law_873 (fun r4 s4 hp hn4 => ?_)
  subst hp
  try dsimp only at h
  refine r_istore G (lv' := [(0, .ref b), (1, .ref (ad 55)), (2, .ref (bd 67)), (3, .ref qo), (4, .int i), (5, .int r2), (6, .int r4)]) [1, 2, 3, 4, 5, 6, 0] rfl (by decide) dL_law_876 ?_
  refine r_aload_n G 2 rfl rfl dL_law_878 ?_
  refine e_callVi G (fun x9 : mS => (s2.1, x9, s2.2.2)) (fun x9 => lW_m ad bd κ qo _ x9 _) rfl [] (qX8_thrown hE _) ⟨146, 8, _, _, rfl, (lw_MO ad bd κ qo _), rfl⟩ gL_law_X8_thrown rfl hdX8_thrown ⟨Nat.le_of_ble_eq_true rfl, Nat.le_of_ble_eq_true rfl⟩ (Nat.le_of_ble_eq_true rfl) rfl ⟨by first | exact hcC | exact Nat.le_trans (Nat.le_add_right _ 8) hcC, by first | exact hcS | exact Nat.le_trans (Nat.le_add_right _ 40) hcS⟩ rfl rfl dL_law_879 (fun r5 s5 hp hn5 => ?_)
  obtain ⟨rfl, hs⟩ := hp
  have hs := hs.symm
  subst hs
  refine r_iload G 5 rfl dL_law_882 ?_
  refine r_icmp_eq G (tgt := 889) dL_law_884 (by decide) (fun c => ?_) (fun c => ?_)
  · rw [if_pos c] at h
    refine r_iload G 5 rfl dL_law_889 ?_
    refine r_if_ne G (tgt := 906) dL_law_891 (by decide) (fun c => ?_) (fun c => ?_)
    · rw [if_neg c] at h
      refine r_goto G (tgt := 2906) dL_law_906 (by decide) ?_
      refine V.sub (lv' := [(0, .ref b), (1, .ref (ad 55)), (2, .ref (bd 67)), (3, .ref qo), (4, .int i)]) [0, 1, 2, 3, 4] rfl ?_
      have h := Option.some.inj h
      subst h
      exact V.widen (by first | exact Nat.le_refl _ | exact Nat.le_add_right _ _) (by first | exact Nat.le_refl _ | exact Nat.le_add_right _ _) hk
    · rw [if_pos c] at h
      refine r_aload_n G 3 rfl rfl dL_law_894 ?_
      refine r_iconst G (v := 0) (by decide) dL_law_895 ?_
      refine r_outld G dL_law_896 ?_
      refine r_iload G 6 rfl dL_law_897 ?_
      refine r_i2l G dL_law_899 ?_
      refine r_lcmp G dL_law_900 ?_
      refine r_if_eq G (tgt := 906) dL_law_901 (by decide) (fun c => ?_) (fun c => ?_)
      · rw [if_pos c] at h
        refine r_goto G (tgt := 2906) dL_law_906 (by decide) ?_
        refine V.sub (lv' := [(0, .ref b), (1, .ref (ad 55)), (2, .ref (bd 67)), (3, .ref qo), (4, .int i)]) [0, 1, 2, 3, 4] rfl ?_
        have h := Option.some.inj h
        subst h
        exact V.widen (by first | exact Nat.le_refl _ | exact Nat.le_add_right _ _) (by first | exact Nat.le_refl _ | exact Nat.le_add_right _ _) hk
      · rw [if_neg c] at h
        refine r_iconst G (v := 0) (by decide) dL_law_904 ?_
        cases h
  · rw [if_neg c] at h
    refine r_iconst G (v := 0) (by decide) dL_law_887 ?_
    cases h

theorem hdL_unite : yL_unite.cls ≠ "java/lang/invoke/MethodHandle" ∧ yL_unite.cls ≠ "java/lang/invoke/VarHandle" ∧ (parseMethodDescriptor yL_unite.desc).map (fun d => d.parameters.length) = some 4 := by decide +kernel
theorem hdX8_unite : yX8_unite.cls = RX8 ∧ yX8_unite.cls ≠ "java/lang/invoke/MethodHandle" ∧ yX8_unite.cls ≠ "java/lang/invoke/VarHandle" ∧ (parseMethodDescriptor yX8_unite.desc).map (fun d => d.parameters.length) = some 2 := by decide +kernel
set_option maxHeartbeats 4000000 in
set_option maxRecDepth 100000 in
theorem wL_c10 {E : evT} {l : Launch} {D : va_G} {ad bd : Nat → Nat} {qo : Nat} {κ : Nat → ClassId} {kK kV : Nat → Nat} (hE : EvOk E) (hT : TOk E) (hfl : l.stackTraces = false) (hC : COk E) (hSt : SOk E kK kV) {Γ : cxT} (G : Cx (lW ad bd κ qo) D (tyA κ) E l Γ code RL wsL_law 9 room_1) {b L : Nat} {ys : Nat → Int32} (hX : va_X b L ys (xs Γ) (xH Γ)) (hbl : b < (xH Γ).size) (hbA : ¬ xA Γ b) {C S : Nat} (hcC : C + 8 ≤ room_1.cells) (hcS : S + 40 ≤ room_1.slots) (i : Int32) (s : lS) {o : lS} (hk : V (lW ad bd κ qo) D Γ o (C + 8) (S + 40) 2906 [(0, .ref b), (1, .ref (ad 55)), (2, .ref (bd 67)), (3, .ref qo), (4, .int i)] []) (h : fL_c10 L ys i s = some o) : V (lW ad bd κ qo) D Γ s C S 909 [(0, .ref b), (1, .ref (ad 55)), (2, .ref (bd 67)), (3, .ref qo), (4, .int i)] [] := by
  rw [fL_c10] at h
  refine r_aload_n G 1 rfl rfl dL_law_909 ?_
  refine r_aload_n G 0 rfl rfl dL_law_910 ?_
  refine r_iload G 4 rfl dL_law_911 ?_
  refine r_iconst G (v := 1) (by decide) dL_law_913 ?_
  refine r_iadd G dL_law_914 ?_
  obtain ⟨g1, h⟩ := og h
  refine r_sld G hX hbl hbA (vin_in g1) dL_law_915 ?_
  refine r_aload_n G 0 rfl rfl dL_law_916 ?_
  refine r_iload G 4 rfl dL_law_917 ?_
  refine r_iconst G (v := 2) (by decide) dL_law_919 ?_
  refine r_iadd G dL_law_920 ?_
  obtain ⟨g2, h⟩ := og h
  refine r_sld G hX hbl hbA (vin_in g2) dL_law_921 ?_
  refine r_aload_n G 3 rfl rfl dL_law_922 ?_
  obtain ⟨o3, e3, h⟩ := ob h
  refine r_callSixH G [.ref (ad 55), .int (ys (i + 1).toNatClampNeg), .int (ys (i + 2).toNatClampNeg), .ref qo] (qL_unite hE hT hfl hC (ys (i + 1).toNatClampNeg) (ys (i + 2).toNatClampNeg) _ e3) gL_law_L_unite rfl hdL_unite ⟨Nat.le_of_ble_eq_true rfl, Nat.le_of_ble_eq_true rfl⟩ (Nat.le_of_ble_eq_true rfl) rfl ⟨by first | exact hcC | exact Nat.le_trans (Nat.le_add_right _ 8) hcC, by first | exact hcS | exact Nat.le_trans (Nat.le_add_right _ 40) hcS⟩ rfl rfl dL_law_923 (fun k9 st9 hp9 => ?_) (fun r3 s3 hp hn3 => ?_)
  · subst hp9
    try dsimp only [Sum.elim_inl] at h
    cases h
  subst hp
  try dsimp only [Sum.elim_inr] at h
  refine r_istore G (lv' := [(0, .ref b), (1, .ref (ad 55)), (2, .ref (bd 67)), (3, .ref qo), (4, .int i), (5, .int r3)]) [1, 2, 3, 4, 5, 0] rfl (by decide) dL_law_926 ?_
  refine r_aload_n G 2 rfl rfl dL_law_928 ?_
  refine r_aload_n G 0 rfl rfl dL_law_929 ?_
  refine r_iload G 4 rfl dL_law_930 ?_
  refine r_iconst G (v := 1) (by decide) dL_law_932 ?_
  refine r_iadd G dL_law_933 ?_
  obtain ⟨g4, h⟩ := og h
  refine r_sld G hX hbl hbA (vin_in g4) dL_law_934 ?_
  refine r_aload_n G 0 rfl rfl dL_law_935 ?_
  refine r_iload G 4 rfl dL_law_936 ?_
  refine r_iconst G (v := 2) (by decide) dL_law_938 ?_
  refine r_iadd G dL_law_939 ?_
  obtain ⟨g5, h⟩ := og h
  refine r_sld G hX hbl hbA (vin_in g5) dL_law_940 ?_
  obtain ⟨o6, e6, h⟩ := ob h
  refine e_callVi G (fun x9 : mS => (s3.1, x9, s3.2.2)) (fun x9 => lW_m ad bd κ qo _ x9 _) rfl [.int (ys (i + 1).toNatClampNeg), .int (ys (i + 2).toNatClampNeg)] (qX8_unite hE (ys (i + 1).toNatClampNeg) (ys (i + 2).toNatClampNeg) _ e6) ⟨146, 8, _, _, rfl, (lw_MO ad bd κ qo _), rfl⟩ gL_law_X8_unite rfl hdX8_unite ⟨Nat.le_of_ble_eq_true rfl, Nat.le_of_ble_eq_true rfl⟩ (Nat.le_of_ble_eq_true rfl) rfl ⟨by first | exact hcC | exact Nat.le_trans (Nat.le_add_right _ 8) hcC, by first | exact hcS | exact Nat.le_trans (Nat.le_add_right _ 40) hcS⟩ rfl rfl dL_law_941 (fun r6 s6 hp hn6 => ?_)
  subst hp
  try dsimp only at h
  refine r_istore G (lv' := [(0, .ref b), (1, .ref (ad 55)), (2, .ref (bd 67)), (3, .ref qo), (4, .int i), (5, .int r3), (6, .int r6)]) [1, 2, 3, 4, 5, 6, 0] rfl (by decide) dL_law_944 ?_
  refine r_aload_n G 2 rfl rfl dL_law_946 ?_
  refine e_callVi G (fun x9 : mS => (s3.1, x9, s3.2.2)) (fun x9 => lW_m ad bd κ qo _ x9 _) rfl [] (qX8_thrown hE _) ⟨146, 8, _, _, rfl, (lw_MO ad bd κ qo _), rfl⟩ gL_law_X8_thrown rfl hdX8_thrown ⟨Nat.le_of_ble_eq_true rfl, Nat.le_of_ble_eq_true rfl⟩ (Nat.le_of_ble_eq_true rfl) rfl ⟨by first | exact hcC | exact Nat.le_trans (Nat.le_add_right _ 8) hcC, by first | exact hcS | exact Nat.le_trans (Nat.le_add_right _ 40) hcS⟩ rfl rfl dL_law_947 (fun r7 s7 hp hn7 => ?_)
  obtain ⟨rfl, hs⟩ := hp
  have hs := hs.symm
  subst hs
  refine r_iload G 5 rfl dL_law_950 ?_
  refine r_icmp_eq G (tgt := 957) dL_law_952 (by decide) (fun c => ?_) (fun c => ?_)
  · rw [if_pos c] at h
    refine r_iload G 5 rfl dL_law_957 ?_
    refine r_if_ne G (tgt := 981) dL_law_959 (by decide) (fun c => ?_) (fun c => ?_)
    · rw [if_neg c] at h
      refine r_goto G (tgt := 2906) dL_law_981 (by decide) ?_
      refine V.sub (lv' := [(0, .ref b), (1, .ref (ad 55)), (2, .ref (bd 67)), (3, .ref qo), (4, .int i)]) [0, 1, 2, 3, 4] rfl ?_
      have h := Option.some.inj h
      subst h
      exact V.widen (by first | exact Nat.le_refl _ | exact Nat.le_add_right _ _) (by first | exact Nat.le_refl _ | exact Nat.le_add_right _ _) hk
    · rw [if_pos c] at h
      refine r_aload_n G 3 rfl rfl dL_law_962 ?_
      refine r_iconst G (v := 0) (by decide) dL_law_963 ?_
      refine r_outld G dL_law_964 ?_
      refine r_iload G 6 rfl dL_law_965 ?_
      refine r_if_eq G (tgt := 974) dL_law_967 (by decide) (fun c => ?_) (fun c => ?_)
      · rw [if_pos c] at h
        refine r_lconst G (v := 0) (by decide) dL_law_974 ?_
        refine r_lcmp G dL_law_975 ?_
        refine r_if_eq G (tgt := 981) dL_law_976 (by decide) (fun c => ?_) (fun c => ?_)
        · rw [if_pos c] at h
          refine r_goto G (tgt := 2906) dL_law_981 (by decide) ?_
          refine V.sub (lv' := [(0, .ref b), (1, .ref (ad 55)), (2, .ref (bd 67)), (3, .ref qo), (4, .int i)]) [0, 1, 2, 3, 4] rfl ?_
          have h := Option.some.inj h
          subst h
          exact V.widen (by first | exact Nat.le_refl _ | exact Nat.le_add_right _ _) (by first | exact Nat.le_refl _ | exact Nat.le_add_right _ _) hk
        · rw [if_neg c] at h
          refine r_iconst G (v := 0) (by decide) dL_law_979 ?_
          cases h
      · rw [if_neg c] at h
        refine r_lconst G (v := 1) (by decide) dL_law_970 ?_
        refine r_goto G (tgt := 975) dL_law_971 (by decide) ?_
        refine r_lcmp G dL_law_975 ?_
        refine r_if_eq G (tgt := 981) dL_law_976 (by decide) (fun c => ?_) (fun c => ?_)
        · rw [if_pos c] at h
          refine r_goto G (tgt := 2906) dL_law_981 (by decide) ?_
          refine V.sub (lv' := [(0, .ref b), (1, .ref (ad 55)), (2, .ref (bd 67)), (3, .ref qo), (4, .int i)]) [0, 1, 2, 3, 4] rfl ?_
          have h := Option.some.inj h
          subst h
          exact V.widen (by first | exact Nat.le_refl _ | exact Nat.le_add_right _ _) (by first | exact Nat.le_refl _ | exact Nat.le_add_right _ _) hk
        · rw [if_neg c] at h
          refine r_iconst G (v := 0) (by decide) dL_law_979 ?_
          cases h
  · rw [if_neg c] at h
    refine r_iconst G (v := 0) (by decide) dL_law_955 ?_
    cases h

theorem hdL_meet : yL_meet.cls ≠ "java/lang/invoke/MethodHandle" ∧ yL_meet.cls ≠ "java/lang/invoke/VarHandle" ∧ (parseMethodDescriptor yL_meet.desc).map (fun d => d.parameters.length) = some 4 := by decide +kernel
theorem hdX8_meet : yX8_meet.cls = RX8 ∧ yX8_meet.cls ≠ "java/lang/invoke/MethodHandle" ∧ yX8_meet.cls ≠ "java/lang/invoke/VarHandle" ∧ (parseMethodDescriptor yX8_meet.desc).map (fun d => d.parameters.length) = some 2 := by decide +kernel
set_option maxHeartbeats 4000000 in
set_option maxRecDepth 100000 in
theorem wL_c11 {E : evT} {l : Launch} {D : va_G} {ad bd : Nat → Nat} {qo : Nat} {κ : Nat → ClassId} {kK kV : Nat → Nat} (hE : EvOk E) (hT : TOk E) (hfl : l.stackTraces = false) (hC : COk E) (hSt : SOk E kK kV) {Γ : cxT} (G : Cx (lW ad bd κ qo) D (tyA κ) E l Γ code RL wsL_law 9 room_1) {b L : Nat} {ys : Nat → Int32} (hX : va_X b L ys (xs Γ) (xH Γ)) (hbl : b < (xH Γ).size) (hbA : ¬ xA Γ b) {C S : Nat} (hcC : C + 8 ≤ room_1.cells) (hcS : S + 40 ≤ room_1.slots) (i : Int32) (s : lS) {o : lS} (hk : V (lW ad bd κ qo) D Γ o (C + 8) (S + 40) 2906 [(0, .ref b), (1, .ref (ad 55)), (2, .ref (bd 67)), (3, .ref qo), (4, .int i)] []) (h : fL_c11 L ys i s = some o) : V (lW ad bd κ qo) D Γ s C S 984 [(0, .ref b), (1, .ref (ad 55)), (2, .ref (bd 67)), (3, .ref qo), (4, .int i)] [] := by
  rw [fL_c11] at h
  refine r_aload_n G 1 rfl rfl dL_law_984 ?_
  refine r_aload_n G 0 rfl rfl dL_law_985 ?_
  refine r_iload G 4 rfl dL_law_986 ?_
  refine r_iconst G (v := 1) (by decide) dL_law_988 ?_
  refine r_iadd G dL_law_989 ?_
  obtain ⟨g1, h⟩ := og h
  refine r_sld G hX hbl hbA (vin_in g1) dL_law_990 ?_
  refine r_aload_n G 0 rfl rfl dL_law_991 ?_
  refine r_iload G 4 rfl dL_law_992 ?_
  refine r_iconst G (v := 2) (by decide) dL_law_994 ?_
  refine r_iadd G dL_law_995 ?_
  obtain ⟨g2, h⟩ := og h
  refine r_sld G hX hbl hbA (vin_in g2) dL_law_996 ?_
  refine r_aload_n G 3 rfl rfl dL_law_997 ?_
  obtain ⟨o3, e3, h⟩ := ob h
  refine r_callSixH G [.ref (ad 55), .int (ys (i + 1).toNatClampNeg), .int (ys (i + 2).toNatClampNeg), .ref qo] (qL_meet hE hT hfl hC (ys (i + 1).toNatClampNeg) (ys (i + 2).toNatClampNeg) _ e3) gL_law_L_meet rfl hdL_meet ⟨Nat.le_of_ble_eq_true rfl, Nat.le_of_ble_eq_true rfl⟩ (Nat.le_of_ble_eq_true rfl) rfl ⟨by first | exact hcC | exact Nat.le_trans (Nat.le_add_right _ 8) hcC, by first | exact hcS | exact Nat.le_trans (Nat.le_add_right _ 40) hcS⟩ rfl rfl dL_law_998 (fun k9 st9 hp9 => ?_) (fun r3 s3 hp hn3 => ?_)
  · subst hp9
    try dsimp only [Sum.elim_inl] at h
    cases h
  subst hp
  try dsimp only [Sum.elim_inr] at h
  refine r_istore G (lv' := [(0, .ref b), (1, .ref (ad 55)), (2, .ref (bd 67)), (3, .ref qo), (4, .int i), (5, .int r3)]) [1, 2, 3, 4, 5, 0] rfl (by decide) dL_law_1001 ?_
  refine r_aload_n G 2 rfl rfl dL_law_1003 ?_
  refine r_aload_n G 0 rfl rfl dL_law_1004 ?_
  refine r_iload G 4 rfl dL_law_1005 ?_
  refine r_iconst G (v := 1) (by decide) dL_law_1007 ?_
  refine r_iadd G dL_law_1008 ?_
  obtain ⟨g4, h⟩ := og h
  refine r_sld G hX hbl hbA (vin_in g4) dL_law_1009 ?_
  refine r_aload_n G 0 rfl rfl dL_law_1010 ?_
  refine r_iload G 4 rfl dL_law_1011 ?_
  refine r_iconst G (v := 2) (by decide) dL_law_1013 ?_
  refine r_iadd G dL_law_1014 ?_
  obtain ⟨g5, h⟩ := og h
  refine r_sld G hX hbl hbA (vin_in g5) dL_law_1015 ?_
  obtain ⟨o6, e6, h⟩ := ob h
  refine e_callVi G (fun x9 : mS => (s3.1, x9, s3.2.2)) (fun x9 => lW_m ad bd κ qo _ x9 _) rfl [.int (ys (i + 1).toNatClampNeg), .int (ys (i + 2).toNatClampNeg)] (qX8_meet hE (ys (i + 1).toNatClampNeg) (ys (i + 2).toNatClampNeg) _ e6) ⟨146, 8, _, _, rfl, (lw_MO ad bd κ qo _), rfl⟩ gL_law_X8_meet rfl hdX8_meet ⟨Nat.le_of_ble_eq_true rfl, Nat.le_of_ble_eq_true rfl⟩ (Nat.le_of_ble_eq_true rfl) rfl ⟨by first | exact hcC | exact Nat.le_trans (Nat.le_add_right _ 8) hcC, by first | exact hcS | exact Nat.le_trans (Nat.le_add_right _ 40) hcS⟩ rfl rfl dL_law_1016 (fun r6 s6 hp hn6 => ?_)
  subst hp
  try dsimp only at h
  refine r_istore G (lv' := [(0, .ref b), (1, .ref (ad 55)), (2, .ref (bd 67)), (3, .ref qo), (4, .int i), (5, .int r3), (6, .int r6)]) [1, 2, 3, 4, 5, 6, 0] rfl (by decide) dL_law_1019 ?_
  refine r_aload_n G 2 rfl rfl dL_law_1021 ?_
  refine e_callVi G (fun x9 : mS => (s3.1, x9, s3.2.2)) (fun x9 => lW_m ad bd κ qo _ x9 _) rfl [] (qX8_thrown hE _) ⟨146, 8, _, _, rfl, (lw_MO ad bd κ qo _), rfl⟩ gL_law_X8_thrown rfl hdX8_thrown ⟨Nat.le_of_ble_eq_true rfl, Nat.le_of_ble_eq_true rfl⟩ (Nat.le_of_ble_eq_true rfl) rfl ⟨by first | exact hcC | exact Nat.le_trans (Nat.le_add_right _ 8) hcC, by first | exact hcS | exact Nat.le_trans (Nat.le_add_right _ 40) hcS⟩ rfl rfl dL_law_1022 (fun r7 s7 hp hn7 => ?_)
  obtain ⟨rfl, hs⟩ := hp
  have hs := hs.symm
  subst hs
  refine r_iload G 5 rfl dL_law_1025 ?_
  refine r_icmp_eq G (tgt := 1032) dL_law_1027 (by decide) (fun c => ?_) (fun c => ?_)
  · rw [if_pos c] at h
    refine r_iload G 5 rfl dL_law_1032 ?_
    refine r_if_ne G (tgt := 1056) dL_law_1034 (by decide) (fun c => ?_) (fun c => ?_)
    · rw [if_neg c] at h
      refine r_goto G (tgt := 2906) dL_law_1056 (by decide) ?_
      refine V.sub (lv' := [(0, .ref b), (1, .ref (ad 55)), (2, .ref (bd 67)), (3, .ref qo), (4, .int i)]) [0, 1, 2, 3, 4] rfl ?_
      have h := Option.some.inj h
      subst h
      exact V.widen (by first | exact Nat.le_refl _ | exact Nat.le_add_right _ _) (by first | exact Nat.le_refl _ | exact Nat.le_add_right _ _) hk
    · rw [if_pos c] at h
      refine r_aload_n G 3 rfl rfl dL_law_1037 ?_
      refine r_iconst G (v := 0) (by decide) dL_law_1038 ?_
      refine r_outld G dL_law_1039 ?_
      refine r_iload G 6 rfl dL_law_1040 ?_
      refine r_if_eq G (tgt := 1049) dL_law_1042 (by decide) (fun c => ?_) (fun c => ?_)
      · rw [if_pos c] at h
        refine r_lconst G (v := 0) (by decide) dL_law_1049 ?_
        refine r_lcmp G dL_law_1050 ?_
        refine r_if_eq G (tgt := 1056) dL_law_1051 (by decide) (fun c => ?_) (fun c => ?_)
        · rw [if_pos c] at h
          refine r_goto G (tgt := 2906) dL_law_1056 (by decide) ?_
          refine V.sub (lv' := [(0, .ref b), (1, .ref (ad 55)), (2, .ref (bd 67)), (3, .ref qo), (4, .int i)]) [0, 1, 2, 3, 4] rfl ?_
          have h := Option.some.inj h
          subst h
          exact V.widen (by first | exact Nat.le_refl _ | exact Nat.le_add_right _ _) (by first | exact Nat.le_refl _ | exact Nat.le_add_right _ _) hk
        · rw [if_neg c] at h
          refine r_iconst G (v := 0) (by decide) dL_law_1054 ?_
          cases h
      · rw [if_neg c] at h
        refine r_lconst G (v := 1) (by decide) dL_law_1045 ?_
        refine r_goto G (tgt := 1050) dL_law_1046 (by decide) ?_
        refine r_lcmp G dL_law_1050 ?_
        refine r_if_eq G (tgt := 1056) dL_law_1051 (by decide) (fun c => ?_) (fun c => ?_)
        · rw [if_pos c] at h
          refine r_goto G (tgt := 2906) dL_law_1056 (by decide) ?_
          refine V.sub (lv' := [(0, .ref b), (1, .ref (ad 55)), (2, .ref (bd 67)), (3, .ref qo), (4, .int i)]) [0, 1, 2, 3, 4] rfl ?_
          have h := Option.some.inj h
          subst h
          exact V.widen (by first | exact Nat.le_refl _ | exact Nat.le_add_right _ _) (by first | exact Nat.le_refl _ | exact Nat.le_add_right _ _) hk
        · rw [if_neg c] at h
          refine r_iconst G (v := 0) (by decide) dL_law_1054 ?_
          cases h
  · rw [if_neg c] at h
    refine r_iconst G (v := 0) (by decide) dL_law_1030 ?_
    cases h

theorem hdL_without : yL_without.cls ≠ "java/lang/invoke/MethodHandle" ∧ yL_without.cls ≠ "java/lang/invoke/VarHandle" ∧ (parseMethodDescriptor yL_without.desc).map (fun d => d.parameters.length) = some 4 := by decide +kernel
theorem hdX8_without : yX8_without.cls = RX8 ∧ yX8_without.cls ≠ "java/lang/invoke/MethodHandle" ∧ yX8_without.cls ≠ "java/lang/invoke/VarHandle" ∧ (parseMethodDescriptor yX8_without.desc).map (fun d => d.parameters.length) = some 2 := by decide +kernel
set_option maxHeartbeats 4000000 in
set_option maxRecDepth 100000 in
theorem wL_c12 {E : evT} {l : Launch} {D : va_G} {ad bd : Nat → Nat} {qo : Nat} {κ : Nat → ClassId} {kK kV : Nat → Nat} (hE : EvOk E) (hT : TOk E) (hfl : l.stackTraces = false) (hC : COk E) (hSt : SOk E kK kV) {Γ : cxT} (G : Cx (lW ad bd κ qo) D (tyA κ) E l Γ code RL wsL_law 9 room_1) {b L : Nat} {ys : Nat → Int32} (hX : va_X b L ys (xs Γ) (xH Γ)) (hbl : b < (xH Γ).size) (hbA : ¬ xA Γ b) {C S : Nat} (hcC : C + 8 ≤ room_1.cells) (hcS : S + 40 ≤ room_1.slots) (i : Int32) (s : lS) {o : lS} (hk : V (lW ad bd κ qo) D Γ o (C + 8) (S + 40) 2906 [(0, .ref b), (1, .ref (ad 55)), (2, .ref (bd 67)), (3, .ref qo), (4, .int i)] []) (h : fL_c12 L ys i s = some o) : V (lW ad bd κ qo) D Γ s C S 1059 [(0, .ref b), (1, .ref (ad 55)), (2, .ref (bd 67)), (3, .ref qo), (4, .int i)] [] := by
  rw [fL_c12] at h
  refine r_aload_n G 1 rfl rfl dL_law_1059 ?_
  refine r_aload_n G 0 rfl rfl dL_law_1060 ?_
  refine r_iload G 4 rfl dL_law_1061 ?_
  refine r_iconst G (v := 1) (by decide) dL_law_1063 ?_
  refine r_iadd G dL_law_1064 ?_
  obtain ⟨g1, h⟩ := og h
  refine r_sld G hX hbl hbA (vin_in g1) dL_law_1065 ?_
  refine r_aload_n G 0 rfl rfl dL_law_1066 ?_
  refine r_iload G 4 rfl dL_law_1067 ?_
  refine r_iconst G (v := 2) (by decide) dL_law_1069 ?_
  refine r_iadd G dL_law_1070 ?_
  obtain ⟨g2, h⟩ := og h
  refine r_sld G hX hbl hbA (vin_in g2) dL_law_1071 ?_
  refine r_aload_n G 3 rfl rfl dL_law_1072 ?_
  obtain ⟨o3, e3, h⟩ := ob h
  refine r_callSixH G [.ref (ad 55), .int (ys (i + 1).toNatClampNeg), .int (ys (i + 2).toNatClampNeg), .ref qo] (qL_without hE hT hfl hC (ys (i + 1).toNatClampNeg) (ys (i + 2).toNatClampNeg) _ e3) gL_law_L_without rfl hdL_without ⟨Nat.le_of_ble_eq_true rfl, Nat.le_of_ble_eq_true rfl⟩ (Nat.le_of_ble_eq_true rfl) rfl ⟨by first | exact hcC | exact Nat.le_trans (Nat.le_add_right _ 8) hcC, by first | exact hcS | exact Nat.le_trans (Nat.le_add_right _ 40) hcS⟩ rfl rfl dL_law_1073 (fun k9 st9 hp9 => ?_) (fun r3 s3 hp hn3 => ?_)
  · subst hp9
    try dsimp only [Sum.elim_inl] at h
    cases h
  subst hp
  try dsimp only [Sum.elim_inr] at h
  refine r_istore G (lv' := [(0, .ref b), (1, .ref (ad 55)), (2, .ref (bd 67)), (3, .ref qo), (4, .int i), (5, .int r3)]) [1, 2, 3, 4, 5, 0] rfl (by decide) dL_law_1076 ?_
  refine r_aload_n G 2 rfl rfl dL_law_1078 ?_
  refine r_aload_n G 0 rfl rfl dL_law_1079 ?_
  refine r_iload G 4 rfl dL_law_1080 ?_
  refine r_iconst G (v := 1) (by decide) dL_law_1082 ?_
  refine r_iadd G dL_law_1083 ?_
  obtain ⟨g4, h⟩ := og h
  refine r_sld G hX hbl hbA (vin_in g4) dL_law_1084 ?_
  refine r_aload_n G 0 rfl rfl dL_law_1085 ?_
  refine r_iload G 4 rfl dL_law_1086 ?_
  refine r_iconst G (v := 2) (by decide) dL_law_1088 ?_
  refine r_iadd G dL_law_1089 ?_
  obtain ⟨g5, h⟩ := og h
  refine r_sld G hX hbl hbA (vin_in g5) dL_law_1090 ?_
  obtain ⟨o6, e6, h⟩ := ob h
  refine e_callVi G (fun x9 : mS => (s3.1, x9, s3.2.2)) (fun x9 => lW_m ad bd κ qo _ x9 _) rfl [.int (ys (i + 1).toNatClampNeg), .int (ys (i + 2).toNatClampNeg)] (qX8_without hE (ys (i + 1).toNatClampNeg) (ys (i + 2).toNatClampNeg) _ e6) ⟨146, 8, _, _, rfl, (lw_MO ad bd κ qo _), rfl⟩ gL_law_X8_without rfl hdX8_without ⟨Nat.le_of_ble_eq_true rfl, Nat.le_of_ble_eq_true rfl⟩ (Nat.le_of_ble_eq_true rfl) rfl ⟨by first | exact hcC | exact Nat.le_trans (Nat.le_add_right _ 8) hcC, by first | exact hcS | exact Nat.le_trans (Nat.le_add_right _ 40) hcS⟩ rfl rfl dL_law_1091 (fun r6 s6 hp hn6 => ?_)
  subst hp
  try dsimp only at h
  refine r_istore G (lv' := [(0, .ref b), (1, .ref (ad 55)), (2, .ref (bd 67)), (3, .ref qo), (4, .int i), (5, .int r3), (6, .int r6)]) [1, 2, 3, 4, 5, 6, 0] rfl (by decide) dL_law_1094 ?_
  refine r_aload_n G 2 rfl rfl dL_law_1096 ?_
  refine e_callVi G (fun x9 : mS => (s3.1, x9, s3.2.2)) (fun x9 => lW_m ad bd κ qo _ x9 _) rfl [] (qX8_thrown hE _) ⟨146, 8, _, _, rfl, (lw_MO ad bd κ qo _), rfl⟩ gL_law_X8_thrown rfl hdX8_thrown ⟨Nat.le_of_ble_eq_true rfl, Nat.le_of_ble_eq_true rfl⟩ (Nat.le_of_ble_eq_true rfl) rfl ⟨by first | exact hcC | exact Nat.le_trans (Nat.le_add_right _ 8) hcC, by first | exact hcS | exact Nat.le_trans (Nat.le_add_right _ 40) hcS⟩ rfl rfl dL_law_1097 (fun r7 s7 hp hn7 => ?_)
  obtain ⟨rfl, hs⟩ := hp
  have hs := hs.symm
  subst hs
  refine r_iload G 5 rfl dL_law_1100 ?_
  refine r_icmp_eq G (tgt := 1107) dL_law_1102 (by decide) (fun c => ?_) (fun c => ?_)
  · rw [if_pos c] at h
    refine r_iload G 5 rfl dL_law_1107 ?_
    refine r_if_ne G (tgt := 1131) dL_law_1109 (by decide) (fun c => ?_) (fun c => ?_)
    · rw [if_neg c] at h
      refine r_goto G (tgt := 2906) dL_law_1131 (by decide) ?_
      refine V.sub (lv' := [(0, .ref b), (1, .ref (ad 55)), (2, .ref (bd 67)), (3, .ref qo), (4, .int i)]) [0, 1, 2, 3, 4] rfl ?_
      have h := Option.some.inj h
      subst h
      exact V.widen (by first | exact Nat.le_refl _ | exact Nat.le_add_right _ _) (by first | exact Nat.le_refl _ | exact Nat.le_add_right _ _) hk
    · rw [if_pos c] at h
      refine r_aload_n G 3 rfl rfl dL_law_1112 ?_
      refine r_iconst G (v := 0) (by decide) dL_law_1113 ?_
      refine r_outld G dL_law_1114 ?_
      refine r_iload G 6 rfl dL_law_1115 ?_
      refine r_if_eq G (tgt := 1124) dL_law_1117 (by decide) (fun c => ?_) (fun c => ?_)
      · rw [if_pos c] at h
        refine r_lconst G (v := 0) (by decide) dL_law_1124 ?_
        refine r_lcmp G dL_law_1125 ?_
        refine r_if_eq G (tgt := 1131) dL_law_1126 (by decide) (fun c => ?_) (fun c => ?_)
        · rw [if_pos c] at h
          refine r_goto G (tgt := 2906) dL_law_1131 (by decide) ?_
          refine V.sub (lv' := [(0, .ref b), (1, .ref (ad 55)), (2, .ref (bd 67)), (3, .ref qo), (4, .int i)]) [0, 1, 2, 3, 4] rfl ?_
          have h := Option.some.inj h
          subst h
          exact V.widen (by first | exact Nat.le_refl _ | exact Nat.le_add_right _ _) (by first | exact Nat.le_refl _ | exact Nat.le_add_right _ _) hk
        · rw [if_neg c] at h
          refine r_iconst G (v := 0) (by decide) dL_law_1129 ?_
          cases h
      · rw [if_neg c] at h
        refine r_lconst G (v := 1) (by decide) dL_law_1120 ?_
        refine r_goto G (tgt := 1125) dL_law_1121 (by decide) ?_
        refine r_lcmp G dL_law_1125 ?_
        refine r_if_eq G (tgt := 1131) dL_law_1126 (by decide) (fun c => ?_) (fun c => ?_)
        · rw [if_pos c] at h
          refine r_goto G (tgt := 2906) dL_law_1131 (by decide) ?_
          refine V.sub (lv' := [(0, .ref b), (1, .ref (ad 55)), (2, .ref (bd 67)), (3, .ref qo), (4, .int i)]) [0, 1, 2, 3, 4] rfl ?_
          have h := Option.some.inj h
          subst h
          exact V.widen (by first | exact Nat.le_refl _ | exact Nat.le_add_right _ _) (by first | exact Nat.le_refl _ | exact Nat.le_add_right _ _) hk
        · rw [if_neg c] at h
          refine r_iconst G (v := 0) (by decide) dL_law_1129 ?_
          cases h
  · rw [if_neg c] at h
    refine r_iconst G (v := 0) (by decide) dL_law_1105 ?_
    cases h

theorem hdL_copy : yL_copy.cls ≠ "java/lang/invoke/MethodHandle" ∧ yL_copy.cls ≠ "java/lang/invoke/VarHandle" ∧ (parseMethodDescriptor yL_copy.desc).map (fun d => d.parameters.length) = some 4 := by decide +kernel
theorem hdX8_copy : yX8_copy.cls = RX8 ∧ yX8_copy.cls ≠ "java/lang/invoke/MethodHandle" ∧ yX8_copy.cls ≠ "java/lang/invoke/VarHandle" ∧ (parseMethodDescriptor yX8_copy.desc).map (fun d => d.parameters.length) = some 2 := by decide +kernel
set_option maxHeartbeats 4000000 in
set_option maxRecDepth 100000 in
theorem wL_c13 {E : evT} {l : Launch} {D : va_G} {ad bd : Nat → Nat} {qo : Nat} {κ : Nat → ClassId} {kK kV : Nat → Nat} (hE : EvOk E) (hT : TOk E) (hfl : l.stackTraces = false) (hC : COk E) (hSt : SOk E kK kV) {Γ : cxT} (G : Cx (lW ad bd κ qo) D (tyA κ) E l Γ code RL wsL_law 9 room_1) {b L : Nat} {ys : Nat → Int32} (hX : va_X b L ys (xs Γ) (xH Γ)) (hbl : b < (xH Γ).size) (hbA : ¬ xA Γ b) {C S : Nat} (hcC : C + 8 ≤ room_1.cells) (hcS : S + 40 ≤ room_1.slots) (i : Int32) (s : lS) {o : lS} (hk : V (lW ad bd κ qo) D Γ o (C + 8) (S + 40) 2906 [(0, .ref b), (1, .ref (ad 55)), (2, .ref (bd 67)), (3, .ref qo), (4, .int i)] []) (h : fL_c13 L ys i s = some o) : V (lW ad bd κ qo) D Γ s C S 1134 [(0, .ref b), (1, .ref (ad 55)), (2, .ref (bd 67)), (3, .ref qo), (4, .int i)] [] := by
  rw [fL_c13] at h
  refine r_aload_n G 1 rfl rfl dL_law_1134 ?_
  refine r_aload_n G 0 rfl rfl dL_law_1135 ?_
  refine r_iload G 4 rfl dL_law_1136 ?_
  refine r_iconst G (v := 1) (by decide) dL_law_1138 ?_
  refine r_iadd G dL_law_1139 ?_
  obtain ⟨g1, h⟩ := og h
  refine r_sld G hX hbl hbA (vin_in g1) dL_law_1140 ?_
  refine r_aload_n G 0 rfl rfl dL_law_1141 ?_
  refine r_iload G 4 rfl dL_law_1142 ?_
  refine r_iconst G (v := 2) (by decide) dL_law_1144 ?_
  refine r_iadd G dL_law_1145 ?_
  obtain ⟨g2, h⟩ := og h
  refine r_sld G hX hbl hbA (vin_in g2) dL_law_1146 ?_
  refine r_aload_n G 3 rfl rfl dL_law_1147 ?_
  obtain ⟨o3, e3, h⟩ := ob h
  refine r_callSixH G [.ref (ad 55), .int (ys (i + 1).toNatClampNeg), .int (ys (i + 2).toNatClampNeg), .ref qo] (qL_copy hE hT hfl hC (ys (i + 1).toNatClampNeg) (ys (i + 2).toNatClampNeg) _ e3) gL_law_L_copy rfl hdL_copy ⟨Nat.le_of_ble_eq_true rfl, Nat.le_of_ble_eq_true rfl⟩ (Nat.le_of_ble_eq_true rfl) rfl ⟨by first | exact hcC | exact Nat.le_trans (Nat.le_add_right _ 8) hcC, by first | exact hcS | exact Nat.le_trans (Nat.le_add_right _ 40) hcS⟩ rfl rfl dL_law_1148 (fun k9 st9 hp9 => ?_) (fun r3 s3 hp hn3 => ?_)
  · subst hp9
    try dsimp only [Sum.elim_inl] at h
    cases h
  subst hp
  try dsimp only [Sum.elim_inr] at h
  refine r_istore G (lv' := [(0, .ref b), (1, .ref (ad 55)), (2, .ref (bd 67)), (3, .ref qo), (4, .int i), (5, .int r3)]) [1, 2, 3, 4, 5, 0] rfl (by decide) dL_law_1151 ?_
  refine r_aload_n G 2 rfl rfl dL_law_1153 ?_
  refine r_aload_n G 0 rfl rfl dL_law_1154 ?_
  refine r_iload G 4 rfl dL_law_1155 ?_
  refine r_iconst G (v := 1) (by decide) dL_law_1157 ?_
  refine r_iadd G dL_law_1158 ?_
  obtain ⟨g4, h⟩ := og h
  refine r_sld G hX hbl hbA (vin_in g4) dL_law_1159 ?_
  refine r_aload_n G 0 rfl rfl dL_law_1160 ?_
  refine r_iload G 4 rfl dL_law_1161 ?_
  refine r_iconst G (v := 2) (by decide) dL_law_1163 ?_
  refine r_iadd G dL_law_1164 ?_
  obtain ⟨g5, h⟩ := og h
  refine r_sld G hX hbl hbA (vin_in g5) dL_law_1165 ?_
  obtain ⟨o6, e6, h⟩ := ob h
  refine e_callVi G (fun x9 : mS => (s3.1, x9, s3.2.2)) (fun x9 => lW_m ad bd κ qo _ x9 _) rfl [.int (ys (i + 1).toNatClampNeg), .int (ys (i + 2).toNatClampNeg)] (qX8_copy hE (ys (i + 1).toNatClampNeg) (ys (i + 2).toNatClampNeg) _ e6) ⟨146, 8, _, _, rfl, (lw_MO ad bd κ qo _), rfl⟩ gL_law_X8_copy rfl hdX8_copy ⟨Nat.le_of_ble_eq_true rfl, Nat.le_of_ble_eq_true rfl⟩ (Nat.le_of_ble_eq_true rfl) rfl ⟨by first | exact hcC | exact Nat.le_trans (Nat.le_add_right _ 8) hcC, by first | exact hcS | exact Nat.le_trans (Nat.le_add_right _ 40) hcS⟩ rfl rfl dL_law_1166 (fun r6 s6 hp hn6 => ?_)
  subst hp
  try dsimp only at h
  refine r_istore G (lv' := [(0, .ref b), (1, .ref (ad 55)), (2, .ref (bd 67)), (3, .ref qo), (4, .int i), (5, .int r3), (6, .int r6)]) [1, 2, 3, 4, 5, 6, 0] rfl (by decide) dL_law_1169 ?_
  refine r_aload_n G 2 rfl rfl dL_law_1171 ?_
  refine e_callVi G (fun x9 : mS => (s3.1, x9, s3.2.2)) (fun x9 => lW_m ad bd κ qo _ x9 _) rfl [] (qX8_thrown hE _) ⟨146, 8, _, _, rfl, (lw_MO ad bd κ qo _), rfl⟩ gL_law_X8_thrown rfl hdX8_thrown ⟨Nat.le_of_ble_eq_true rfl, Nat.le_of_ble_eq_true rfl⟩ (Nat.le_of_ble_eq_true rfl) rfl ⟨by first | exact hcC | exact Nat.le_trans (Nat.le_add_right _ 8) hcC, by first | exact hcS | exact Nat.le_trans (Nat.le_add_right _ 40) hcS⟩ rfl rfl dL_law_1172 (fun r7 s7 hp hn7 => ?_)
  obtain ⟨rfl, hs⟩ := hp
  have hs := hs.symm
  subst hs
  refine r_iload G 5 rfl dL_law_1175 ?_
  refine r_icmp_eq G (tgt := 1182) dL_law_1177 (by decide) (fun c => ?_) (fun c => ?_)
  · rw [if_pos c] at h
    refine r_iload G 5 rfl dL_law_1182 ?_
    refine r_if_ne G (tgt := 1199) dL_law_1184 (by decide) (fun c => ?_) (fun c => ?_)
    · rw [if_neg c] at h
      refine r_goto G (tgt := 2906) dL_law_1199 (by decide) ?_
      refine V.sub (lv' := [(0, .ref b), (1, .ref (ad 55)), (2, .ref (bd 67)), (3, .ref qo), (4, .int i)]) [0, 1, 2, 3, 4] rfl ?_
      have h := Option.some.inj h
      subst h
      exact V.widen (by first | exact Nat.le_refl _ | exact Nat.le_add_right _ _) (by first | exact Nat.le_refl _ | exact Nat.le_add_right _ _) hk
    · rw [if_pos c] at h
      refine r_aload_n G 3 rfl rfl dL_law_1187 ?_
      refine r_iconst G (v := 0) (by decide) dL_law_1188 ?_
      refine r_outld G dL_law_1189 ?_
      refine r_iload G 6 rfl dL_law_1190 ?_
      refine r_i2l G dL_law_1192 ?_
      refine r_lcmp G dL_law_1193 ?_
      refine r_if_eq G (tgt := 1199) dL_law_1194 (by decide) (fun c => ?_) (fun c => ?_)
      · rw [if_pos c] at h
        refine r_goto G (tgt := 2906) dL_law_1199 (by decide) ?_
        refine V.sub (lv' := [(0, .ref b), (1, .ref (ad 55)), (2, .ref (bd 67)), (3, .ref qo), (4, .int i)]) [0, 1, 2, 3, 4] rfl ?_
        have h := Option.some.inj h
        subst h
        exact V.widen (by first | exact Nat.le_refl _ | exact Nat.le_add_right _ _) (by first | exact Nat.le_refl _ | exact Nat.le_add_right _ _) hk
      · rw [if_neg c] at h
        refine r_iconst G (v := 0) (by decide) dL_law_1197 ?_
        cases h
  · rw [if_neg c] at h
    refine r_iconst G (v := 0) (by decide) dL_law_1180 ?_
    cases h

theorem hdL_sieve : yL_sieve.cls ≠ "java/lang/invoke/MethodHandle" ∧ yL_sieve.cls ≠ "java/lang/invoke/VarHandle" ∧ (parseMethodDescriptor yL_sieve.desc).map (fun d => d.parameters.length) = some 5 := by decide +kernel
theorem hdX8_sieve : yX8_sieve.cls = RX8 ∧ yX8_sieve.cls ≠ "java/lang/invoke/MethodHandle" ∧ yX8_sieve.cls ≠ "java/lang/invoke/VarHandle" ∧ (parseMethodDescriptor yX8_sieve.desc).map (fun d => d.parameters.length) = some 3 := by decide +kernel
set_option maxHeartbeats 4000000 in
set_option maxRecDepth 100000 in
theorem wL_c14 {E : evT} {l : Launch} {D : va_G} {ad bd : Nat → Nat} {qo : Nat} {κ : Nat → ClassId} {kK kV : Nat → Nat} (hE : EvOk E) (hT : TOk E) (hfl : l.stackTraces = false) (hC : COk E) (hSt : SOk E kK kV) {Γ : cxT} (G : Cx (lW ad bd κ qo) D (tyA κ) E l Γ code RL wsL_law 9 room_1) {b L : Nat} {ys : Nat → Int32} (hX : va_X b L ys (xs Γ) (xH Γ)) (hbl : b < (xH Γ).size) (hbA : ¬ xA Γ b) {C S : Nat} (hcC : C + 8 ≤ room_1.cells) (hcS : S + 40 ≤ room_1.slots) (i : Int32) (s : lS) {o : lS} (hk : V (lW ad bd κ qo) D Γ o (C + 8) (S + 40) 2906 [(0, .ref b), (1, .ref (ad 55)), (2, .ref (bd 67)), (3, .ref qo), (4, .int i)] []) (h : fL_c14 L ys i s = some o) : V (lW ad bd κ qo) D Γ s C S 1202 [(0, .ref b), (1, .ref (ad 55)), (2, .ref (bd 67)), (3, .ref qo), (4, .int i)] [] := by
  rw [fL_c14] at h
  refine r_aload_n G 1 rfl rfl dL_law_1202 ?_
  refine r_aload_n G 0 rfl rfl dL_law_1203 ?_
  refine r_iload G 4 rfl dL_law_1204 ?_
  refine r_iconst G (v := 1) (by decide) dL_law_1206 ?_
  refine r_iadd G dL_law_1207 ?_
  obtain ⟨g1, h⟩ := og h
  refine r_sld G hX hbl hbA (vin_in g1) dL_law_1208 ?_
  refine r_aload_n G 0 rfl rfl dL_law_1209 ?_
  refine r_iload G 4 rfl dL_law_1210 ?_
  refine r_iconst G (v := 2) (by decide) dL_law_1212 ?_
  refine r_iadd G dL_law_1213 ?_
  obtain ⟨g2, h⟩ := og h
  refine r_sld G hX hbl hbA (vin_in g2) dL_law_1214 ?_
  refine r_aload_n G 0 rfl rfl dL_law_1215 ?_
  refine r_iload G 4 rfl dL_law_1216 ?_
  refine r_iconst G (v := 3) (by decide) dL_law_1218 ?_
  refine r_iadd G dL_law_1219 ?_
  obtain ⟨g3, h⟩ := og h
  refine r_sld G hX hbl hbA (vin_in g3) dL_law_1220 ?_
  refine r_aload_n G 3 rfl rfl dL_law_1221 ?_
  obtain ⟨o4, e4, h⟩ := ob h
  refine r_callSixH G [.ref (ad 55), .int (ys (i + 1).toNatClampNeg), .int (ys (i + 2).toNatClampNeg), .int (ys (i + 3).toNatClampNeg), .ref qo] (qL_sieve hE hT hfl hC (ys (i + 1).toNatClampNeg) (ys (i + 2).toNatClampNeg) (ys (i + 3).toNatClampNeg) _ e4) gL_law_L_sieve rfl hdL_sieve ⟨Nat.le_of_ble_eq_true rfl, Nat.le_of_ble_eq_true rfl⟩ (Nat.le_of_ble_eq_true rfl) rfl ⟨by first | exact hcC | exact Nat.le_trans (Nat.le_add_right _ 8) hcC, by first | exact hcS | exact Nat.le_trans (Nat.le_add_right _ 40) hcS⟩ rfl rfl dL_law_1222 (fun k9 st9 hp9 => ?_) (fun r4 s4 hp hn4 => ?_)
  · subst hp9
    try dsimp only [Sum.elim_inl] at h
    cases h
  subst hp
  try dsimp only [Sum.elim_inr] at h
  refine r_istore G (lv' := [(0, .ref b), (1, .ref (ad 55)), (2, .ref (bd 67)), (3, .ref qo), (4, .int i), (5, .int r4)]) [1, 2, 3, 4, 5, 0] rfl (by decide) dL_law_1225 ?_
  refine r_aload_n G 2 rfl rfl dL_law_1227 ?_
  refine r_aload_n G 0 rfl rfl dL_law_1228 ?_
  refine r_iload G 4 rfl dL_law_1229 ?_
  refine r_iconst G (v := 1) (by decide) dL_law_1231 ?_
  refine r_iadd G dL_law_1232 ?_
  obtain ⟨g5, h⟩ := og h
  refine r_sld G hX hbl hbA (vin_in g5) dL_law_1233 ?_
  refine r_aload_n G 0 rfl rfl dL_law_1234 ?_
  refine r_iload G 4 rfl dL_law_1235 ?_
  refine r_iconst G (v := 2) (by decide) dL_law_1237 ?_
  refine r_iadd G dL_law_1238 ?_
  obtain ⟨g6, h⟩ := og h
  refine r_sld G hX hbl hbA (vin_in g6) dL_law_1239 ?_
  refine r_aload_n G 0 rfl rfl dL_law_1240 ?_
  refine r_iload G 4 rfl dL_law_1241 ?_
  refine r_iconst G (v := 3) (by decide) dL_law_1243 ?_
  refine r_iadd G dL_law_1244 ?_
  obtain ⟨g7, h⟩ := og h
  refine r_sld G hX hbl hbA (vin_in g7) dL_law_1245 ?_
  obtain ⟨o8, e8, h⟩ := ob h
  refine e_callVi G (fun x9 : mS => (s4.1, x9, s4.2.2)) (fun x9 => lW_m ad bd κ qo _ x9 _) rfl [.int (ys (i + 1).toNatClampNeg), .int (ys (i + 2).toNatClampNeg), .int (ys (i + 3).toNatClampNeg)] (qX8_sieve hE (ys (i + 1).toNatClampNeg) (ys (i + 2).toNatClampNeg) (ys (i + 3).toNatClampNeg) _ e8) ⟨146, 8, _, _, rfl, (lw_MO ad bd κ qo _), rfl⟩ gL_law_X8_sieve rfl hdX8_sieve ⟨Nat.le_of_ble_eq_true rfl, Nat.le_of_ble_eq_true rfl⟩ (Nat.le_of_ble_eq_true rfl) rfl ⟨by first | exact hcC | exact Nat.le_trans (Nat.le_add_right _ 8) hcC, by first | exact hcS | exact Nat.le_trans (Nat.le_add_right _ 40) hcS⟩ rfl rfl dL_law_1246 (fun r8 s8 hp hn8 => ?_)
  subst hp
  try dsimp only at h
  refine r_istore G (lv' := [(0, .ref b), (1, .ref (ad 55)), (2, .ref (bd 67)), (3, .ref qo), (4, .int i), (5, .int r4), (6, .int r8)]) [1, 2, 3, 4, 5, 6, 0] rfl (by decide) dL_law_1249 ?_
  refine r_aload_n G 2 rfl rfl dL_law_1251 ?_
  refine e_callVi G (fun x9 : mS => (s4.1, x9, s4.2.2)) (fun x9 => lW_m ad bd κ qo _ x9 _) rfl [] (qX8_thrown hE _) ⟨146, 8, _, _, rfl, (lw_MO ad bd κ qo _), rfl⟩ gL_law_X8_thrown rfl hdX8_thrown ⟨Nat.le_of_ble_eq_true rfl, Nat.le_of_ble_eq_true rfl⟩ (Nat.le_of_ble_eq_true rfl) rfl ⟨by first | exact hcC | exact Nat.le_trans (Nat.le_add_right _ 8) hcC, by first | exact hcS | exact Nat.le_trans (Nat.le_add_right _ 40) hcS⟩ rfl rfl dL_law_1252 (fun r9 s9 hp hn9 => ?_)
  obtain ⟨rfl, hs⟩ := hp
  have hs := hs.symm
  subst hs
  refine r_iload G 5 rfl dL_law_1255 ?_
  refine r_icmp_eq G (tgt := 1262) dL_law_1257 (by decide) (fun c => ?_) (fun c => ?_)
  · rw [if_pos c] at h
    refine r_iload G 5 rfl dL_law_1262 ?_
    refine r_if_ne G (tgt := 1279) dL_law_1264 (by decide) (fun c => ?_) (fun c => ?_)
    · rw [if_neg c] at h
      refine r_goto G (tgt := 2906) dL_law_1279 (by decide) ?_
      refine V.sub (lv' := [(0, .ref b), (1, .ref (ad 55)), (2, .ref (bd 67)), (3, .ref qo), (4, .int i)]) [0, 1, 2, 3, 4] rfl ?_
      have h := Option.some.inj h
      subst h
      exact V.widen (by first | exact Nat.le_refl _ | exact Nat.le_add_right _ _) (by first | exact Nat.le_refl _ | exact Nat.le_add_right _ _) hk
    · rw [if_pos c] at h
      refine r_aload_n G 3 rfl rfl dL_law_1267 ?_
      refine r_iconst G (v := 0) (by decide) dL_law_1268 ?_
      refine r_outld G dL_law_1269 ?_
      refine r_iload G 6 rfl dL_law_1270 ?_
      refine r_i2l G dL_law_1272 ?_
      refine r_lcmp G dL_law_1273 ?_
      refine r_if_eq G (tgt := 1279) dL_law_1274 (by decide) (fun c => ?_) (fun c => ?_)
      · rw [if_pos c] at h
        refine r_goto G (tgt := 2906) dL_law_1279 (by decide) ?_
        refine V.sub (lv' := [(0, .ref b), (1, .ref (ad 55)), (2, .ref (bd 67)), (3, .ref qo), (4, .int i)]) [0, 1, 2, 3, 4] rfl ?_
        have h := Option.some.inj h
        subst h
        exact V.widen (by first | exact Nat.le_refl _ | exact Nat.le_add_right _ _) (by first | exact Nat.le_refl _ | exact Nat.le_add_right _ _) hk
      · rw [if_neg c] at h
        refine r_iconst G (v := 0) (by decide) dL_law_1277 ?_
        cases h
  · rw [if_neg c] at h
    refine r_iconst G (v := 0) (by decide) dL_law_1260 ?_
    cases h

theorem hdL_isWithin : yL_isWithin.cls ≠ "java/lang/invoke/MethodHandle" ∧ yL_isWithin.cls ≠ "java/lang/invoke/VarHandle" ∧ (parseMethodDescriptor yL_isWithin.desc).map (fun d => d.parameters.length) = some 4 := by decide +kernel
theorem hdX8_isWithin : yX8_isWithin.cls = RX8 ∧ yX8_isWithin.cls ≠ "java/lang/invoke/MethodHandle" ∧ yX8_isWithin.cls ≠ "java/lang/invoke/VarHandle" ∧ (parseMethodDescriptor yX8_isWithin.desc).map (fun d => d.parameters.length) = some 2 := by decide +kernel
set_option maxHeartbeats 4000000 in
set_option maxRecDepth 100000 in
theorem wL_c15 {E : evT} {l : Launch} {D : va_G} {ad bd : Nat → Nat} {qo : Nat} {κ : Nat → ClassId} {kK kV : Nat → Nat} (hE : EvOk E) (hT : TOk E) (hfl : l.stackTraces = false) (hC : COk E) (hSt : SOk E kK kV) {Γ : cxT} (G : Cx (lW ad bd κ qo) D (tyA κ) E l Γ code RL wsL_law 9 room_1) {b L : Nat} {ys : Nat → Int32} (hX : va_X b L ys (xs Γ) (xH Γ)) (hbl : b < (xH Γ).size) (hbA : ¬ xA Γ b) {C S : Nat} (hcC : C + 8 ≤ room_1.cells) (hcS : S + 40 ≤ room_1.slots) (i : Int32) (s : lS) {o : lS} (hk : V (lW ad bd κ qo) D Γ o (C + 8) (S + 40) 2906 [(0, .ref b), (1, .ref (ad 55)), (2, .ref (bd 67)), (3, .ref qo), (4, .int i)] []) (h : fL_c15 L ys i s = some o) : V (lW ad bd κ qo) D Γ s C S 1282 [(0, .ref b), (1, .ref (ad 55)), (2, .ref (bd 67)), (3, .ref qo), (4, .int i)] [] := by
  rw [fL_c15] at h
  refine r_aload_n G 1 rfl rfl dL_law_1282 ?_
  refine r_aload_n G 0 rfl rfl dL_law_1283 ?_
  refine r_iload G 4 rfl dL_law_1284 ?_
  refine r_iconst G (v := 1) (by decide) dL_law_1286 ?_
  refine r_iadd G dL_law_1287 ?_
  obtain ⟨g1, h⟩ := og h
  refine r_sld G hX hbl hbA (vin_in g1) dL_law_1288 ?_
  refine r_aload_n G 0 rfl rfl dL_law_1289 ?_
  refine r_iload G 4 rfl dL_law_1290 ?_
  refine r_iconst G (v := 2) (by decide) dL_law_1292 ?_
  refine r_iadd G dL_law_1293 ?_
  obtain ⟨g2, h⟩ := og h
  refine r_sld G hX hbl hbA (vin_in g2) dL_law_1294 ?_
  refine r_aload_n G 3 rfl rfl dL_law_1295 ?_
  obtain ⟨o3, e3, h⟩ := ob h
  refine r_callSixH G [.ref (ad 55), .int (ys (i + 1).toNatClampNeg), .int (ys (i + 2).toNatClampNeg), .ref qo] (qL_isWithin hE hT hfl hC (ys (i + 1).toNatClampNeg) (ys (i + 2).toNatClampNeg) _ e3) gL_law_L_isWithin rfl hdL_isWithin ⟨Nat.le_of_ble_eq_true rfl, Nat.le_of_ble_eq_true rfl⟩ (Nat.le_of_ble_eq_true rfl) rfl ⟨by first | exact hcC | exact Nat.le_trans (Nat.le_add_right _ 8) hcC, by first | exact hcS | exact Nat.le_trans (Nat.le_add_right _ 40) hcS⟩ rfl rfl dL_law_1296 (fun k9 st9 hp9 => ?_) (fun r3 s3 hp hn3 => ?_)
  · subst hp9
    try dsimp only [Sum.elim_inl] at h
    cases h
  subst hp
  try dsimp only [Sum.elim_inr] at h
  refine r_istore G (lv' := [(0, .ref b), (1, .ref (ad 55)), (2, .ref (bd 67)), (3, .ref qo), (4, .int i), (5, .int r3)]) [1, 2, 3, 4, 5, 0] rfl (by decide) dL_law_1299 ?_
  refine r_aload_n G 2 rfl rfl dL_law_1301 ?_
  refine r_aload_n G 0 rfl rfl dL_law_1302 ?_
  refine r_iload G 4 rfl dL_law_1303 ?_
  refine r_iconst G (v := 1) (by decide) dL_law_1305 ?_
  refine r_iadd G dL_law_1306 ?_
  obtain ⟨g4, h⟩ := og h
  refine r_sld G hX hbl hbA (vin_in g4) dL_law_1307 ?_
  refine r_aload_n G 0 rfl rfl dL_law_1308 ?_
  refine r_iload G 4 rfl dL_law_1309 ?_
  refine r_iconst G (v := 2) (by decide) dL_law_1311 ?_
  refine r_iadd G dL_law_1312 ?_
  obtain ⟨g5, h⟩ := og h
  refine r_sld G hX hbl hbA (vin_in g5) dL_law_1313 ?_
  obtain ⟨o6, e6, h⟩ := ob h
  refine e_callVi G (fun x9 : mS => (s3.1, x9, s3.2.2)) (fun x9 => lW_m ad bd κ qo _ x9 _) rfl [.int (ys (i + 1).toNatClampNeg), .int (ys (i + 2).toNatClampNeg)] (qX8_isWithin hE (ys (i + 1).toNatClampNeg) (ys (i + 2).toNatClampNeg) _ e6) ⟨146, 8, _, _, rfl, (lw_MO ad bd κ qo _), rfl⟩ gL_law_X8_isWithin rfl hdX8_isWithin ⟨Nat.le_of_ble_eq_true rfl, Nat.le_of_ble_eq_true rfl⟩ (Nat.le_of_ble_eq_true rfl) rfl ⟨by first | exact hcC | exact Nat.le_trans (Nat.le_add_right _ 8) hcC, by first | exact hcS | exact Nat.le_trans (Nat.le_add_right _ 40) hcS⟩ rfl rfl dL_law_1314 (fun r6 s6 hp hn6 => ?_)
  subst hp
  try dsimp only at h
  refine r_istore G (lv' := [(0, .ref b), (1, .ref (ad 55)), (2, .ref (bd 67)), (3, .ref qo), (4, .int i), (5, .int r3), (6, .int r6)]) [1, 2, 3, 4, 5, 6, 0] rfl (by decide) dL_law_1317 ?_
  refine r_aload_n G 2 rfl rfl dL_law_1319 ?_
  refine e_callVi G (fun x9 : mS => (s3.1, x9, s3.2.2)) (fun x9 => lW_m ad bd κ qo _ x9 _) rfl [] (qX8_thrown hE _) ⟨146, 8, _, _, rfl, (lw_MO ad bd κ qo _), rfl⟩ gL_law_X8_thrown rfl hdX8_thrown ⟨Nat.le_of_ble_eq_true rfl, Nat.le_of_ble_eq_true rfl⟩ (Nat.le_of_ble_eq_true rfl) rfl ⟨by first | exact hcC | exact Nat.le_trans (Nat.le_add_right _ 8) hcC, by first | exact hcS | exact Nat.le_trans (Nat.le_add_right _ 40) hcS⟩ rfl rfl dL_law_1320 (fun r7 s7 hp hn7 => ?_)
  obtain ⟨rfl, hs⟩ := hp
  have hs := hs.symm
  subst hs
  refine r_iload G 5 rfl dL_law_1323 ?_
  refine r_icmp_eq G (tgt := 1330) dL_law_1325 (by decide) (fun c => ?_) (fun c => ?_)
  · rw [if_pos c] at h
    refine r_iload G 5 rfl dL_law_1330 ?_
    refine r_if_ne G (tgt := 1354) dL_law_1332 (by decide) (fun c => ?_) (fun c => ?_)
    · rw [if_neg c] at h
      refine r_goto G (tgt := 2906) dL_law_1354 (by decide) ?_
      refine V.sub (lv' := [(0, .ref b), (1, .ref (ad 55)), (2, .ref (bd 67)), (3, .ref qo), (4, .int i)]) [0, 1, 2, 3, 4] rfl ?_
      have h := Option.some.inj h
      subst h
      exact V.widen (by first | exact Nat.le_refl _ | exact Nat.le_add_right _ _) (by first | exact Nat.le_refl _ | exact Nat.le_add_right _ _) hk
    · rw [if_pos c] at h
      refine r_aload_n G 3 rfl rfl dL_law_1335 ?_
      refine r_iconst G (v := 0) (by decide) dL_law_1336 ?_
      refine r_outld G dL_law_1337 ?_
      refine r_iload G 6 rfl dL_law_1338 ?_
      refine r_if_eq G (tgt := 1347) dL_law_1340 (by decide) (fun c => ?_) (fun c => ?_)
      · rw [if_pos c] at h
        refine r_lconst G (v := 0) (by decide) dL_law_1347 ?_
        refine r_lcmp G dL_law_1348 ?_
        refine r_if_eq G (tgt := 1354) dL_law_1349 (by decide) (fun c => ?_) (fun c => ?_)
        · rw [if_pos c] at h
          refine r_goto G (tgt := 2906) dL_law_1354 (by decide) ?_
          refine V.sub (lv' := [(0, .ref b), (1, .ref (ad 55)), (2, .ref (bd 67)), (3, .ref qo), (4, .int i)]) [0, 1, 2, 3, 4] rfl ?_
          have h := Option.some.inj h
          subst h
          exact V.widen (by first | exact Nat.le_refl _ | exact Nat.le_add_right _ _) (by first | exact Nat.le_refl _ | exact Nat.le_add_right _ _) hk
        · rw [if_neg c] at h
          refine r_iconst G (v := 0) (by decide) dL_law_1352 ?_
          cases h
      · rw [if_neg c] at h
        refine r_lconst G (v := 1) (by decide) dL_law_1343 ?_
        refine r_goto G (tgt := 1348) dL_law_1344 (by decide) ?_
        refine r_lcmp G dL_law_1348 ?_
        refine r_if_eq G (tgt := 1354) dL_law_1349 (by decide) (fun c => ?_) (fun c => ?_)
        · rw [if_pos c] at h
          refine r_goto G (tgt := 2906) dL_law_1354 (by decide) ?_
          refine V.sub (lv' := [(0, .ref b), (1, .ref (ad 55)), (2, .ref (bd 67)), (3, .ref qo), (4, .int i)]) [0, 1, 2, 3, 4] rfl ?_
          have h := Option.some.inj h
          subst h
          exact V.widen (by first | exact Nat.le_refl _ | exact Nat.le_add_right _ _) (by first | exact Nat.le_refl _ | exact Nat.le_add_right _ _) hk
        · rw [if_neg c] at h
          refine r_iconst G (v := 0) (by decide) dL_law_1352 ?_
          cases h
  · rw [if_neg c] at h
    refine r_iconst G (v := 0) (by decide) dL_law_1328 ?_
    cases h
