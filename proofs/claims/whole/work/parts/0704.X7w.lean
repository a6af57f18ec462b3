abbrev rmX2_combine_null : Room := { frames := 6, cells := 1, slots := 6, locals := 92 }
set_option maxRecDepth 20000 in
theorem mX2_combine_k26 : Cond.classLink RX2 26 "java/lang/IllegalArgumentException" ∈ wsX2_combine := by decide +kernel
set_option maxRecDepth 20000 in
theorem mX2_combine_i2 : Cond.initialized "java/lang/IllegalArgumentException" ∈ wsX2_combine := by decide +kernel
set_option maxRecDepth 20000 in
theorem tX2_combine_30 : ∀ w ∈ (vx_atS RX2 30 "java/lang/IllegalArgumentException" ["java/lang/RuntimeException", "java/lang/Exception"]).filter goodWord, w ∈ wsX2_combine := by decide +kernel
theorem oX2_30 : ∀ w ∈ (vx_atS RX2 30 "java/lang/IllegalArgumentException" ["java/lang/RuntimeException", "java/lang/Exception"]), vx_ot w = true := by decide +kernel
theorem bX2_30 : ∀ w ∈ (vx_atS RX2 30 "java/lang/IllegalArgumentException" ["java/lang/RuntimeException", "java/lang/Exception"]).filter (fun w => !goodWord w), w ∈ thB := by decide +kernel
theorem sX2_28 : (RX2, 28, "there is no other set") ∈ thS := by decide +kernel
set_option maxHeartbeats 4000000 in
set_option maxRecDepth 100000 in
theorem qX2_combine_null {E : evT} {l : Launch} {D : va_G} {ad : Nat → Nat} {κ : Nat → ClassId} (hE : EvOk E) (hT : TOk E) (hfl : l.stackTraces = false) (n : Nat) (hn : n < 55) (p0 : Int32) (s : cS) {o : ((Nat × cS) ⊕ (Int32 × cS))} (h : fX2_combine_null n p0 s = some o) : Xi l yX2_combine wsX2_combine rmX2_combine_null (cW ad κ) E D (tyA κ) .boolean [.ref (ad n), .int p0, .null] s (fun r s2 => o = .inr (r, s2)) (fun e s2 => o = .inl (e, s2)) := by
  rw [fX2_combine_null] at h
  refine s_xi (cc := cX2_combine) (nL := 7) (own := RX2) hE (cW_WA ad κ) (by decide) rfl rfl (Nat.le_of_ble_eq_true rfl) (fun Γ Qc G X9 hret => ?_)
  refine r_aload_nN G 2 rfl rfl dX2_combine_0 ?_
  refine r_ifnonnullN G dX2_combine_1 ?_
  exact r_throw G X9 hT hfl (k := 2) (by decide) mX2_combine_k26 mX2_combine_i2 tX2_combine_30 oX2_30 bX2_30 sX2_28 dX2_combine_4 dX2_combine_7 dX2_combine_8 dX2_combine_10 dX2_combine_13 (Option.some.inj h).symm (Nat.le_of_ble_eq_true rfl) (Nat.le_of_ble_eq_true rfl) (Nat.le_of_ble_eq_true rfl) (Nat.le_of_ble_eq_true rfl)
abbrev rmX2_holdsAll_null : Room := { frames := 6, cells := 1, slots := 6, locals := 92 }
set_option maxRecDepth 20000 in
theorem mX2_holdsAll_k26 : Cond.classLink RX2 26 "java/lang/IllegalArgumentException" ∈ wsX2_holdsAll := by decide +kernel
set_option maxRecDepth 20000 in
theorem mX2_holdsAll_i2 : Cond.initialized "java/lang/IllegalArgumentException" ∈ wsX2_holdsAll := by decide +kernel
set_option maxRecDepth 20000 in
theorem tX2_holdsAll_30 : ∀ w ∈ (vx_atS RX2 30 "java/lang/IllegalArgumentException" ["java/lang/RuntimeException", "java/lang/Exception"]).filter goodWord, w ∈ wsX2_holdsAll := by decide +kernel
set_option maxHeartbeats 4000000 in
set_option maxRecDepth 100000 in
theorem qX2_holdsAll_null {E : evT} {l : Launch} {D : va_G} {ad : Nat → Nat} {κ : Nat → ClassId} (hE : EvOk E) (hT : TOk E) (hfl : l.stackTraces = false) (n : Nat) (hn : n < 55) (s : cS) {o : ((Nat × cS) ⊕ (Int32 × cS))} (h : fX2_holdsAll_null n s = some o) : Xi l yX2_holdsAll wsX2_holdsAll rmX2_holdsAll_null (cW ad κ) E D (tyA κ) .boolean [.ref (ad n), .null] s (fun r s2 => o = .inr (r, s2)) (fun e s2 => o = .inl (e, s2)) := by
  rw [fX2_holdsAll_null] at h
  refine s_xi (cc := cX2_holdsAll) (nL := 2) (own := RX2) hE (cW_WA ad κ) (by decide) rfl rfl (Nat.le_of_ble_eq_true rfl) (fun Γ Qc G X9 hret => ?_)
  refine r_aload_nN G 1 rfl rfl dX2_holdsAll_0 ?_
  refine r_ifnonnullN G dX2_holdsAll_1 ?_
  exact r_throw G X9 hT hfl (k := 2) (by decide) mX2_holdsAll_k26 mX2_holdsAll_i2 tX2_holdsAll_30 oX2_30 bX2_30 sX2_28 dX2_holdsAll_4 dX2_holdsAll_7 dX2_holdsAll_8 dX2_holdsAll_10 dX2_holdsAll_13 (Option.some.inj h).symm (Nat.le_of_ble_eq_true rfl) (Nat.le_of_ble_eq_true rfl) (Nat.le_of_ble_eq_true rfl) (Nat.le_of_ble_eq_true rfl)
abbrev rmX7_changeByView : Room := { frames := 7, cells := 3, slots := 16, locals := 114 }
theorem hdX5_walk : yX5_walk.cls = RX5 ∧ yX5_walk.cls ≠ "java/lang/invoke/MethodHandle" ∧ yX5_walk.cls ≠ "java/lang/invoke/VarHandle" ∧ (parseMethodDescriptor yX5_walk.desc).map (fun d => d.parameters.length) = some 0 := by decide +kernel
theorem hdX6_step : yX6_step.cls = RX6 ∧ yX6_step.cls ≠ "java/lang/invoke/MethodHandle" ∧ yX6_step.cls ≠ "java/lang/invoke/VarHandle" ∧ (parseMethodDescriptor yX6_step.desc).map (fun d => d.parameters.length) = some 0 := by decide +kernel
theorem hdX6_takeOutLast : yX6_takeOutLast.cls = RX6 ∧ yX6_takeOutLast.cls ≠ "java/lang/invoke/MethodHandle" ∧ yX6_takeOutLast.cls ≠ "java/lang/invoke/VarHandle" ∧ (parseMethodDescriptor yX6_takeOutLast.desc).map (fun d => d.parameters.length) = some 0 := by decide +kernel
theorem hdX5_put : yX5_put.cls = RX5 ∧ yX5_put.cls ≠ "java/lang/invoke/MethodHandle" ∧ yX5_put.cls ≠ "java/lang/invoke/VarHandle" ∧ (parseMethodDescriptor yX5_put.desc).map (fun d => d.parameters.length) = some 1 := by decide +kernel
theorem hdX5_takeOut : yX5_takeOut.cls = RX5 ∧ yX5_takeOut.cls ≠ "java/lang/invoke/MethodHandle" ∧ yX5_takeOut.cls ≠ "java/lang/invoke/VarHandle" ∧ (parseMethodDescriptor yX5_takeOut.desc).map (fun d => d.parameters.length) = some 1 := by decide +kernel
theorem hdX5_combine : yX5_combine.cls = RX5 ∧ yX5_combine.cls ≠ "java/lang/invoke/MethodHandle" ∧ yX5_combine.cls ≠ "java/lang/invoke/VarHandle" ∧ (parseMethodDescriptor yX5_combine.desc).map (fun d => d.parameters.length) = some 2 := by decide +kernel
theorem hdX5_empty : yX5_empty.cls = RX5 ∧ yX5_empty.cls ≠ "java/lang/invoke/MethodHandle" ∧ yX5_empty.cls ≠ "java/lang/invoke/VarHandle" ∧ (parseMethodDescriptor yX5_empty.desc).map (fun d => d.parameters.length) = some 0 := by decide +kernel
set_option maxHeartbeats 4000000 in
set_option maxRecDepth 100000 in
theorem qX7_changeByView {E : evT} {l : Launch} {D : va_G} {ad : Nat → Nat} {κ : Nat → ClassId} (hE : EvOk E) (hT : TOk E) (hfl : l.stackTraces = false) (p0 : Nat) (hp0 : 58 ≤ p0 ∧ p0 < 66) (p1 : Int32) (p2 : Int32) (s : cS) {o : ((Nat × cS) ⊕ (cS))} (h : fX7_changeByView p0 p1 p2 s = some o) : Xv l yX7_changeByView wsX7_changeByView rmX7_changeByView (cW ad κ) E D (tyA κ)  [.ref (ad 55), .ref (ad p0), .int p1, .int p2] s (fun s2 => o = .inr s2) (fun e s2 => o = .inl (e, s2)) := by
  rw [fX7_changeByView] at h
  refine s_xv (cc := cX7_changeByView) (nL := 5) (own := RX7) hE (cW_WA ad κ) (by decide) rfl rfl (Nat.le_of_ble_eq_true rfl) (fun Γ Qc G X9 hret => ?_)
  refine r_iload_n G 2 rfl rfl dX7_changeByView_0 ?_
  by_cases c0 : p1 = 0
  · rw [if_pos c0] at h
    refine r_tableIn G (tgt := 40) dX7_changeByView_1 (by rw [c0]; decide) (by rw [c0]; decide) (by rw [c0]; rfl) (by decide) ?_
    refine r_aload_n G 1 rfl rfl dX7_changeByView_40 ?_
    refine r_iload_n G 3 rfl rfl dX7_changeByView_41 ?_
    obtain ⟨o3, e3, h⟩ := ob h
    refine r_callVix G [.int p2] (qX5_put hE hT hfl p0 hp0 p2 _ e3) ⟨p0, 5, _, _, rfl, (cw_VIEWv ad κ _ hp0), rfl⟩ gX7_changeByView_X5_put rfl hdX5_put ⟨Nat.le_of_ble_eq_true rfl, Nat.le_of_ble_eq_true rfl⟩ (Nat.le_of_ble_eq_true rfl) rfl ⟨Nat.le_of_ble_eq_true rfl, Nat.le_of_ble_eq_true rfl⟩ rfl rfl dX7_changeByView_42 (fun k9 st9 hp9 => by subst hp9; exact r_out G X9 (fun _ hx => nomatch hx) (Option.some.inj h).symm (Nat.le_of_ble_eq_true rfl) (Nat.le_of_ble_eq_true rfl)) (fun r3 s3 hp hn3 => ?_)
    subst hp
    try dsimp only [Sum.elim_inr] at h
    refine r_pop G rfl dX7_changeByView_45 ?_
    refine r_goto G (tgt := 124) dX7_changeByView_46 (by decide) ?_
    exact hret _ _ _ _ _ dX7_changeByView_124 (Option.some.inj h).symm (Nat.le_of_ble_eq_true rfl) (Nat.le_of_ble_eq_true rfl)
  · rw [if_neg c0] at h
    by_cases c1 : p1 = 1
    · rw [if_pos c1] at h
      refine r_tableIn G (tgt := 49) dX7_changeByView_1 (by rw [c1]; decide) (by rw [c1]; decide) (by rw [c1]; rfl) (by decide) ?_
      refine r_aload_n G 1 rfl rfl dX7_changeByView_49 ?_
      refine r_iload_n G 3 rfl rfl dX7_changeByView_50 ?_
      obtain ⟨o4, e4, h⟩ := ob h
      refine r_callVix G [.int p2] (qX5_takeOut hE hT hfl p0 hp0 p2 _ e4) ⟨p0, 5, _, _, rfl, (cw_VIEWv ad κ _ hp0), rfl⟩ gX7_changeByView_X5_takeOut rfl hdX5_takeOut ⟨Nat.le_of_ble_eq_true rfl, Nat.le_of_ble_eq_true rfl⟩ (Nat.le_of_ble_eq_true rfl) rfl ⟨Nat.le_of_ble_eq_true rfl, Nat.le_of_ble_eq_true rfl⟩ rfl rfl dX7_changeByView_51 (fun k9 st9 hp9 => by subst hp9; exact r_out G X9 (fun _ hx => nomatch hx) (Option.some.inj h).symm (Nat.le_of_ble_eq_true rfl) (Nat.le_of_ble_eq_true rfl)) (fun r4 s4 hp hn4 => ?_)
      subst hp
      try dsimp only [Sum.elim_inr] at h
      refine r_pop G rfl dX7_changeByView_54 ?_
      refine r_goto G (tgt := 124) dX7_changeByView_55 (by decide) ?_
      exact hret _ _ _ _ _ dX7_changeByView_124 (Option.some.inj h).symm (Nat.le_of_ble_eq_true rfl) (Nat.le_of_ble_eq_true rfl)
    · rw [if_neg c1] at h
      by_cases c2 : p1 = 2
      · rw [if_pos c2] at h
        refine r_tableIn G (tgt := 58) dX7_changeByView_1 (by rw [c2]; decide) (by rw [c2]; decide) (by rw [c2]; rfl) (by decide) ?_
        refine r_aload_n G 1 rfl rfl dX7_changeByView_58 ?_
        refine r_iconst G (v := 0) (by decide) dX7_changeByView_59 ?_
        refine r_aload_n G 0 rfl rfl dX7_changeByView_60 ?_
        refine r_iconst G (v := 0) (by decide) dX7_changeByView_61 ?_
        obtain ⟨o5, e5, h⟩ := ob h
        refine r_callVrx G [.int 0] (qX7_setAt hE hT hfl (0 : Int32) _ e5) ⟨55, 7, _, _, rfl, (cw_SC ad κ _), rfl⟩ gX7_changeByView_X7_setAt rfl hdX7_setAt ⟨Nat.le_of_ble_eq_true rfl, Nat.le_of_ble_eq_true rfl⟩ (Nat.le_of_ble_eq_true rfl) rfl ⟨Nat.le_of_ble_eq_true rfl, Nat.le_of_ble_eq_true rfl⟩ rfl rfl dX7_changeByView_62 (fun k9 st9 hp9 => by subst hp9; exact r_out G X9 (fun _ hx => nomatch hx) (Option.some.inj h).symm (Nat.le_of_ble_eq_true rfl) (Nat.le_of_ble_eq_true rfl)) (fun r5 s5 hp => ?_)
        subst hp
        try dsimp only [Sum.elim_inr] at h
        obtain ⟨g6, h⟩ := og h
        obtain ⟨o7, e7, h⟩ := ob h
        refine r_callVix G [.int 0, .ref (ad r5)] (qX5_combine hE hT hfl p0 hp0 (0 : Int32) r5 g6 _ e7) ⟨p0, 5, _, _, rfl, (cw_VIEWv ad κ _ hp0), rfl⟩ gX7_changeByView_X5_combine rfl hdX5_combine ⟨Nat.le_of_ble_eq_true rfl, Nat.le_of_ble_eq_true rfl⟩ (Nat.le_of_ble_eq_true rfl) rfl ⟨Nat.le_of_ble_eq_true rfl, Nat.le_of_ble_eq_true rfl⟩ rfl rfl dX7_changeByView_65 (fun k9 st9 hp9 => by subst hp9; exact r_out G X9 (fun _ hx => nomatch hx) (Option.some.inj h).symm (Nat.le_of_ble_eq_true rfl) (Nat.le_of_ble_eq_true rfl)) (fun r7 s7 hp hn7 => ?_)
        subst hp
        try dsimp only [Sum.elim_inr] at h
        refine r_pop G rfl dX7_changeByView_68 ?_
        refine r_goto G (tgt := 124) dX7_changeByView_69 (by decide) ?_
        exact hret _ _ _ _ _ dX7_changeByView_124 (Option.some.inj h).symm (Nat.le_of_ble_eq_true rfl) (Nat.le_of_ble_eq_true rfl)
      · rw [if_neg c2] at h
        by_cases c3 : p1 = 3
        · rw [if_pos c3] at h
          refine r_tableIn G (tgt := 72) dX7_changeByView_1 (by rw [c3]; decide) (by rw [c3]; decide) (by rw [c3]; rfl) (by decide) ?_
          refine r_aload_n G 1 rfl rfl dX7_changeByView_72 ?_
          refine r_iconst G (v := 1) (by decide) dX7_changeByView_73 ?_
          refine r_aload_n G 0 rfl rfl dX7_changeByView_74 ?_
          refine r_iconst G (v := 0) (by decide) dX7_changeByView_75 ?_
          obtain ⟨o8, e8, h⟩ := ob h
          refine r_callVrx G [.int 0] (qX7_setAt hE hT hfl (0 : Int32) _ e8) ⟨55, 7, _, _, rfl, (cw_SC ad κ _), rfl⟩ gX7_changeByView_X7_setAt rfl hdX7_setAt ⟨Nat.le_of_ble_eq_true rfl, Nat.le_of_ble_eq_true rfl⟩ (Nat.le_of_ble_eq_true rfl) rfl ⟨Nat.le_of_ble_eq_true rfl, Nat.le_of_ble_eq_true rfl⟩ rfl rfl dX7_changeByView_76 (fun k9 st9 hp9 => by subst hp9; exact r_out G X9 (fun _ hx => nomatch hx) (Option.some.inj h).symm (Nat.le_of_ble_eq_true rfl) (Nat.le_of_ble_eq_true rfl)) (fun r8 s8 hp => ?_)
          subst hp
          try dsimp only [Sum.elim_inr] at h
          obtain ⟨g9, h⟩ := og h
          obtain ⟨o10, e10, h⟩ := ob h
          refine r_callVix G [.int 1, .ref (ad r8)] (qX5_combine hE hT hfl p0 hp0 (1 : Int32) r8 g9 _ e10) ⟨p0, 5, _, _, rfl, (cw_VIEWv ad κ _ hp0), rfl⟩ gX7_changeByView_X5_combine rfl hdX5_combine ⟨Nat.le_of_ble_eq_true rfl, Nat.le_of_ble_eq_true rfl⟩ (Nat.le_of_ble_eq_true rfl) rfl ⟨Nat.le_of_ble_eq_true rfl, Nat.le_of_ble_eq_true rfl⟩ rfl rfl dX7_changeByView_79 (fun k9 st9 hp9 => by subst hp9; exact r_out G X9 (fun _ hx => nomatch hx) (Option.some.inj h).symm (Nat.le_of_ble_eq_true rfl) (Nat.le_of_ble_eq_true rfl)) (fun r10 s10 hp hn10 => ?_)
          subst hp
          try dsimp only [Sum.elim_inr] at h
          refine r_pop G rfl dX7_changeByView_82 ?_
          refine r_goto G (tgt := 124) dX7_changeByView_83 (by decide) ?_
          exact hret _ _ _ _ _ dX7_changeByView_124 (Option.some.inj h).symm (Nat.le_of_ble_eq_true rfl) (Nat.le_of_ble_eq_true rfl)
        · rw [if_neg c3] at h
          by_cases c4 : p1 = 4
          · rw [if_pos c4] at h
            refine r_tableIn G (tgt := 86) dX7_changeByView_1 (by rw [c4]; decide) (by rw [c4]; decide) (by rw [c4]; rfl) (by decide) ?_
            refine r_aload_n G 1 rfl rfl dX7_changeByView_86 ?_
            refine r_iconst G (v := 2) (by decide) dX7_changeByView_87 ?_
            refine r_aload_n G 0 rfl rfl dX7_changeByView_88 ?_
            refine r_iconst G (v := 0) (by decide) dX7_changeByView_89 ?_
            obtain ⟨o11, e11, h⟩ := ob h
            refine r_callVrx G [.int 0] (qX7_setAt hE hT hfl (0 : Int32) _ e11) ⟨55, 7, _, _, rfl, (cw_SC ad κ _), rfl⟩ gX7_changeByView_X7_setAt rfl hdX7_setAt ⟨Nat.le_of_ble_eq_true rfl, Nat.le_of_ble_eq_true rfl⟩ (Nat.le_of_ble_eq_true rfl) rfl ⟨Nat.le_of_ble_eq_true rfl, Nat.le_of_ble_eq_true rfl⟩ rfl rfl dX7_changeByView_90 (fun k9 st9 hp9 => by subst hp9; exact r_out G X9 (fun _ hx => nomatch hx) (Option.some.inj h).symm (Nat.le_of_ble_eq_true rfl) (Nat.le_of_ble_eq_true rfl)) (fun r11 s11 hp => ?_)
            subst hp
            try dsimp only [Sum.elim_inr] at h
            obtain ⟨g12, h⟩ := og h
            obtain ⟨o13, e13, h⟩ := ob h
            refine r_callVix G [.int 2, .ref (ad r11)] (qX5_combine hE hT hfl p0 hp0 (2 : Int32) r11 g12 _ e13) ⟨p0, 5, _, _, rfl, (cw_VIEWv ad κ _ hp0), rfl⟩ gX7_changeByView_X5_combine rfl hdX5_combine ⟨Nat.le_of_ble_eq_true rfl, Nat.le_of_ble_eq_true rfl⟩ (Nat.le_of_ble_eq_true rfl) rfl ⟨Nat.le_of_ble_eq_true rfl, Nat.le_of_ble_eq_true rfl⟩ rfl rfl dX7_changeByView_93 (fun k9 st9 hp9 => by subst hp9; exact r_out G X9 (fun _ hx => nomatch hx) (Option.some.inj h).symm (Nat.le_of_ble_eq_true rfl) (Nat.le_of_ble_eq_true rfl)) (fun r13 s13 hp hn13 => ?_)
            subst hp
            try dsimp only [Sum.elim_inr] at h
            refine r_pop G rfl dX7_changeByView_96 ?_
            refine r_goto G (tgt := 124) dX7_changeByView_97 (by decide) ?_
            exact hret _ _ _ _ _ dX7_changeByView_124 (Option.some.inj h).symm (Nat.le_of_ble_eq_true rfl) (Nat.le_of_ble_eq_true rfl)
          · rw [if_neg c4] at h
            by_cases c5 : p1 = 5
            · rw [if_pos c5] at h
              refine r_tableIn G (tgt := 100) dX7_changeByView_1 (by rw [c5]; decide) (by rw [c5]; decide) (by rw [c5]; rfl) (by decide) ?_
              refine r_aload_n G 1 rfl rfl dX7_changeByView_100 ?_
              obtain ⟨o14, e14, h⟩ := ob h
              refine r_callVvx G [] (qX5_empty hE hT hfl p0 hp0 _ e14) ⟨p0, 5, _, _, rfl, (cw_VIEWv ad κ _ hp0), rfl⟩ gX7_changeByView_X5_empty rfl hdX5_empty ⟨Nat.le_of_ble_eq_true rfl, Nat.le_of_ble_eq_true rfl⟩ (Nat.le_of_ble_eq_true rfl) rfl ⟨Nat.le_of_ble_eq_true rfl, Nat.le_of_ble_eq_true rfl⟩ rfl rfl dX7_changeByView_101 (fun k9 st9 hp9 => by subst hp9; exact r_out G X9 (fun _ hx => nomatch hx) (Option.some.inj h).symm (Nat.le_of_ble_eq_true rfl) (Nat.le_of_ble_eq_true rfl)) (fun s14 hp => ?_)
              have hp := hp.symm
              subst hp
              try dsimp only [Sum.elim_inr] at h
              refine r_goto G (tgt := 124) dX7_changeByView_104 (by decide) ?_
              exact hret _ _ _ _ _ dX7_changeByView_124 (Option.some.inj h).symm (Nat.le_of_ble_eq_true rfl) (Nat.le_of_ble_eq_true rfl)
            · rw [if_neg c5] at h
              refine r_tableOut G (tgt := 107) dX7_changeByView_1 (tsw 6 (lt_s (lt_s (lt_s (lt_s (lt_s (lt_s (lt_0) c0) c1) c2) c3) c4) c5)) (by decide) ?_
              refine r_aload_n G 1 rfl rfl dX7_changeByView_107 ?_
              refine r_callVn G [] (qX5_walk hE p0 hp0 _) ⟨p0, 5, _, _, rfl, (cw_VIEWv ad κ _ hp0), rfl⟩ gX7_changeByView_X5_walk rfl hdX5_walk ⟨(Nat.le_of_ble_eq_true rfl), (Nat.le_of_ble_eq_true rfl)⟩ (Nat.le_of_ble_eq_true rfl) rfl ⟨(Nat.le_of_ble_eq_true rfl), (Nat.le_of_ble_eq_true rfl)⟩ rfl rfl dX7_changeByView_108 (fun q G => ?_)
              rw [wK_new1 ad κ q (p0 - 58) 0 s] at G ⊢
              replace G := Cx.of_kw (wK_WA ad κ q (p0 - 58) 0) G
              refine V_kw ?_
              refine r_astore G (lv' := [(4, .ref q)]) [0] rfl (by decide) dX7_changeByView_111 ?_
              refine r_aload G 0 rfl dX7_changeByView_113 ?_
              obtain ⟨o1, e1, h⟩ := ob h
              refine r_callVix G [] (qX6_step hE hT hfl (p0 - 58) 0 (by have := hp0; omega) _ e1) ⟨79, 6, _, _, rfl, (kw_WALK ad κ _ _ _ _), rfl⟩ gX7_changeByView_X6_step rfl hdX6_step ⟨Nat.le_of_ble_eq_true rfl, Nat.le_of_ble_eq_true rfl⟩ (Nat.le_of_ble_eq_true rfl) rfl ⟨Nat.le_of_ble_eq_true rfl, Nat.le_of_ble_eq_true rfl⟩ rfl rfl dX7_changeByView_115 (fun k9 st9 hp9 => by subst hp9; exact VX_unK (r_out G.unK X9 (fun _ hx => nomatch hx) (Option.some.inj h).symm (Nat.le_of_ble_eq_true rfl) (Nat.le_of_ble_eq_true rfl))) (fun r1 s1 hp hn1 => ?_)
              subst hp
              try dsimp only [Sum.elim_inr] at h
              refine r_pop G rfl dX7_changeByView_118 ?_
              refine r_aload G 0 rfl dX7_changeByView_119 ?_
              obtain ⟨o2, e2, h⟩ := ob h
              refine r_callVvx G [] (qX6_takeOutLast hE hT hfl (p0 - 58) 0 (by have := hp0; omega) _ e2) ⟨79, 6, _, _, rfl, (kw_WALK ad κ _ _ _ _), rfl⟩ gX7_changeByView_X6_takeOutLast rfl hdX6_takeOutLast ⟨Nat.le_of_ble_eq_true rfl, Nat.le_of_ble_eq_true rfl⟩ (Nat.le_of_ble_eq_true rfl) rfl ⟨Nat.le_of_ble_eq_true rfl, Nat.le_of_ble_eq_true rfl⟩ rfl rfl dX7_changeByView_121 (fun k9 st9 hp9 => by subst hp9; exact VX_unK (r_out G.unK X9 (fun _ hx => nomatch hx) (Option.some.inj h).symm (Nat.le_of_ble_eq_true rfl) (Nat.le_of_ble_eq_true rfl))) (fun s2 hp => ?_)
              have hp := hp.symm
              subst hp
              try dsimp only [Sum.elim_inr] at h
              refine V_unK ?_
              exact hret _ _ _ _ _ dX7_changeByView_124 (Option.some.inj h).symm (Nat.le_of_ble_eq_true rfl) (Nat.le_of_ble_eq_true rfl)
abbrev rmX7_walkWrongly : Room := { frames := 7, cells := 4, slots := 22, locals := 113 }
set_option maxRecDepth 20000 in
theorem kX7_walkWrongly_X6 : ∀ w ∈ u_ws RX6 TX6 4, w ∈ wsX7_walkWrongly := by decide +kernel
set_option maxRecDepth 20000 in
theorem mX7_walkWrongly_k292 : Cond.classLink RX7 292 RX6 ∈ wsX7_walkWrongly := by decide +kernel
set_option maxRecDepth 20000 in
theorem mX7_walkWrongly_inst6 : Cond.instantiable RX6 4 ∈ wsX7_walkWrongly := by decide +kernel
set_option maxRecDepth 20000 in
theorem mX7_walkWrongly_ini6 : Cond.initialized RX6 ∈ wsX7_walkWrongly := by decide +kernel
set_option maxRecDepth 20000 in
theorem mX7_walkWrongly_ml299 : Cond.methodLink RX7 299 yX6_init ∈ wsX7_walkWrongly := by decide +kernel
set_option maxRecDepth 20000 in
theorem mX7_walkWrongly_im6 : Cond.instanceMethod yX6_init ∈ wsX7_walkWrongly := by decide +kernel
set_option maxHeartbeats 4000000 in
set_option maxRecDepth 100000 in
theorem wX7_walkWrongly_L22 {E : evT} {l : Launch} {D : va_G} {ad : Nat → Nat} {q : Nat} {κ : Nat → ClassId} (hE : EvOk E) (hT : TOk E) (hfl : l.stackTraces = false) (x2 : Int32) (t : Nat) (m : Int32) (ht : t < 55) {Γ : cxT} {Qc : Array Value → State → Outcome → State → Prop} (G : Cx (wK ad κ q t m) D (tyA κ) E l Γ cX7_walkWrongly RX7 wsX7_walkWrongly 5 rmX7_walkWrongly) {o : ((Nat × cS) ⊕ (cS))} (X9 : Tx (cW ad κ) D Γ rmX7_walkWrongly (fun e st2 => o = .inl (e, st2)) Qc []) (hret : ∀ (st2 : cS) (cells slots pc : Nat) (lv : List (Nat × Value)), decode cX7_walkWrongly pc = .ok (.return_, 1) → o = .inr st2 → cells ≤ rmX7_walkWrongly.cells → slots ≤ rmX7_walkWrongly.slots → V (cW ad κ) D Γ st2 cells slots pc lv []) {k0 : kS → Option ((Nat × cS) ⊕ (cS))} (hk0 : ∀ (s : kS), k0 s = some o → V (wK ad κ q t m) D Γ s 1 4 39 [] []) : ∀ (fuel : Nat) (x4 : Int32) (s : kS), fX7_walkWrongly_L22 x2 t m k0 fuel x4 s = some o → V (wK ad κ q t m) D Γ s 1 4 22 [(2, .int x2), (3, .ref q), (4, .int x4)] [] := by
  intro fuel
  induction fuel with
  | zero =>
    intro _ _ h
    have h : none = some o := h
    cases h
  | succ fuel ih =>
    intro x4 s h
    rw [fX7_walkWrongly_L22] at h
    refine r_iload G 2 rfl dX7_walkWrongly_22 ?_
    refine r_iload_n G 0 rfl rfl dX7_walkWrongly_24 ?_
    refine r_icmp_gt G (tgt := 39) dX7_walkWrongly_25 (by decide) (fun c => ?_) (fun c => ?_)
    · rw [if_pos c] at h
      refine V.sub (lv' := []) [ ] rfl ?_
      exact hk0 _ h
    · rw [if_neg c] at h
      refine r_aload_n G 1 rfl rfl dX7_walkWrongly_28 ?_
      obtain ⟨o6, e6, h⟩ := ob h
      rcases o6 with ⟨k8, st8⟩ | ⟨r6, s6⟩
      · try dsimp only [Sum.elim_inl] at h
        exact r_callVix G [] (qX6_step hE hT hfl t m ht _ e6) ⟨79, 6, _, _, rfl, (kw_WALK ad κ _ _ _ _), rfl⟩ gX7_walkWrongly_X6_step rfl hdX6_step ⟨Nat.le_of_ble_eq_true rfl, Nat.le_of_ble_eq_true rfl⟩ (Nat.le_of_ble_eq_true rfl) rfl ⟨Nat.le_of_ble_eq_true rfl, Nat.le_of_ble_eq_true rfl⟩ rfl rfl dX7_walkWrongly_29 (fun k9 st9 hp9 => by cases hp9; exact VX_unK (r_out G.unK X9 (fun _ hx => nomatch hx) (Option.some.inj h).symm (Nat.le_of_ble_eq_true rfl) (Nat.le_of_ble_eq_true rfl))) (fun r8 s8 hp8 => nomatch hp8)
      try dsimp only [Sum.elim_inr] at h
      refine r_callVi G [] (qX6_step_n hE t m ht _ e6) ⟨79, 6, _, _, rfl, (kw_WALK ad κ _ _ _ _), rfl⟩ gX7_walkWrongly_X6_step rfl hdX6_step ⟨Nat.le_of_ble_eq_true rfl, Nat.le_of_ble_eq_true rfl⟩ (Nat.le_of_ble_eq_true rfl) rfl ⟨Nat.le_of_ble_eq_true rfl, Nat.le_of_ble_eq_true rfl⟩ rfl rfl dX7_walkWrongly_29 (fun r8 s8 hp8 hn6 => ?_)
      cases hp8
      refine r_pop G rfl dX7_walkWrongly_32 ?_
      refine r_iinc G (j := 2) rfl (v := x4 + 1) (lv' := [(2, .int x2), (3, .ref q), (4, .int (x4 + 1))]) rfl [1, 2, 0] rfl (by decide) dX7_walkWrongly_33 ?_
      refine r_goto G (tgt := 22) dX7_walkWrongly_36 (by decide) ?_
      exact ih _ _ h
set_option maxHeartbeats 4000000 in
set_option maxRecDepth 100000 in
theorem qX7_walkWrongly {E : evT} {l : Launch} {D : va_G} {ad : Nat → Nat} {κ : Nat → ClassId} (hE : EvOk E) (hT : TOk E) (hfl : l.stackTraces = false) (p0 : Nat) (hp0 : p0 < 55) (p1 : Int32) (s : cS) {o : ((Nat × cS) ⊕ (cS))} (h : fX7_walkWrongly p0 p1 s = some o) : Xv l yX7_walkWrongly wsX7_walkWrongly rmX7_walkWrongly (cW ad κ) E D (tyA κ)  [.ref (ad p0), .int p1] s (fun s2 => o = .inr s2) (fun e s2 => o = .inl (e, s2)) := by
  rw [fX7_walkWrongly] at h
  refine s_xv (cc := cX7_walkWrongly) (nL := 5) (own := RX7) hE (cW_WA ad κ) (by decide) rfl rfl (Nat.le_of_ble_eq_true rfl) (fun Γ Qc G X9 hret => ?_)
  refine r_aload_n G 0 rfl rfl dX7_walkWrongly_0 ?_
  refine r_callVi G [] (qX2_count hE p0 hp0 _) ⟨p0, 2, _, _, rfl, (cw_MS ad κ _ hp0), rfl⟩ gX7_walkWrongly_X2_count rfl hdX2_count ⟨Nat.le_of_ble_eq_true rfl, Nat.le_of_ble_eq_true rfl⟩ (Nat.le_of_ble_eq_true rfl) rfl ⟨Nat.le_of_ble_eq_true rfl, Nat.le_of_ble_eq_true rfl⟩ rfl rfl dX7_walkWrongly_1 (fun r1 s1 hp hn1 => ?_)
  obtain ⟨rfl, hs⟩ := hp
  have hs := hs.symm
  subst hs
  refine r_istore_n G (lv' := [(0, .ref (ad p0)), (1, .int p1), (2, .int (fX2_count p0 s))]) [1, 2, 0] rfl rfl (by decide) dX7_walkWrongly_4 ?_
  refine z_new G (C := RX6) (T := TX6) (N := 4) (ci := 6) (fs := [.null, .int 0, .int 0, .int 0]) kX7_walkWrongly_X6 tyX6 tyX6_ok mX7_walkWrongly_k292 mX7_walkWrongly_inst6 mX7_walkWrongly_ini6 rfl (by decide) (Nat.le_of_ble_eq_true rfl) (Nat.le_of_ble_eq_true rfl) dX7_walkWrongly_5 (fun q G => ?_)
  refine r_dup G rfl dX7_walkWrongly_8 ?_
  refine r_aload_n G 0 rfl rfl dX7_walkWrongly_9 ?_
  refine r_iconst G (v := 1) (by decide) dX7_walkWrongly_10 ?_
  refine z_callI G (P := cW ad κ s) (Q := []) (w0 := [(q, .inr (6, [.null, .int 0, .int 0, .int 0]))]) (by rw [List.append_nil]) [.ref (ad p0), .int 1] (qX6_init hE rfl rfl) gX7_walkWrongly_X6_init rfl mX7_walkWrongly_ini6 mX7_walkWrongly_ml299 mX7_walkWrongly_im6 rfl hdX6_init ⟨(Nat.le_of_ble_eq_true rfl), (Nat.le_of_ble_eq_true rfl)⟩ (Nat.le_of_ble_eq_true rfl) rfl ⟨(Nat.le_of_ble_eq_true rfl), (Nat.le_of_ble_eq_true rfl)⟩ rfl rfl dX7_walkWrongly_11 (fun w1 hw1 G => ?_)
  subst hw1
  rw [wK_new ad κ q p0 1 s] at G ⊢
  replace G := Cx.of_kw (wK_WA ad κ q p0 1) G
  refine V_kw ?_
  refine r_astore_n G (lv' := [(1, .int p1), (2, .int (fX2_count p0 s)), (3, .ref q)]) [2, 3, 0] rfl rfl (by decide) dX7_walkWrongly_14 ?_
  refine r_iload_n G 0 rfl rfl dX7_walkWrongly_15 ?_
  refine r_if_ne G (tgt := 42) dX7_walkWrongly_16 (by decide) (fun c => ?_) (fun c => ?_)
  · rw [if_neg c] at h
    refine r_iload_n G 0 rfl rfl dX7_walkWrongly_42 ?_
    refine r_iconst G (v := 1) (by decide) dX7_walkWrongly_43 ?_
    refine r_icmp_ne G (tgt := 54) dX7_walkWrongly_44 (by decide) (fun c => ?_) (fun c => ?_)
    · rw [if_neg c] at h
      refine r_aload_n G 2 rfl rfl dX7_walkWrongly_54 ?_
      obtain ⟨o2, e2, h⟩ := ob h
      refine r_callVix G [] (qX6_step hE hT hfl p0 1 hp0 _ e2) ⟨79, 6, _, _, rfl, (kw_WALK ad κ _ _ _ _), rfl⟩ gX7_walkWrongly_X6_step rfl hdX6_step ⟨Nat.le_of_ble_eq_true rfl, Nat.le_of_ble_eq_true rfl⟩ (Nat.le_of_ble_eq_true rfl) rfl ⟨Nat.le_of_ble_eq_true rfl, Nat.le_of_ble_eq_true rfl⟩ rfl rfl dX7_walkWrongly_55 (fun k9 st9 hp9 => by subst hp9; exact VX_unK (r_out G.unK X9 (fun _ hx => nomatch hx) (Option.some.inj h).symm (Nat.le_of_ble_eq_true rfl) (Nat.le_of_ble_eq_true rfl))) (fun r2 s2 hp hn2 => ?_)
      subst hp
      try dsimp only [Sum.elim_inr] at h
      refine r_pop G rfl dX7_walkWrongly_58 ?_
      refine r_aload_n G 2 rfl rfl dX7_walkWrongly_59 ?_
      obtain ⟨o3, e3, h⟩ := ob h
      refine r_callVvx G [] (qX6_takeOutLast hE hT hfl p0 1 hp0 _ e3) ⟨79, 6, _, _, rfl, (kw_WALK ad κ _ _ _ _), rfl⟩ gX7_walkWrongly_X6_takeOutLast rfl hdX6_takeOutLast ⟨Nat.le_of_ble_eq_true rfl, Nat.le_of_ble_eq_true rfl⟩ (Nat.le_of_ble_eq_true rfl) rfl ⟨Nat.le_of_ble_eq_true rfl, Nat.le_of_ble_eq_true rfl⟩ rfl rfl dX7_walkWrongly_60 (fun k9 st9 hp9 => by subst hp9; exact VX_unK (r_out G.unK X9 (fun _ hx => nomatch hx) (Option.some.inj h).symm (Nat.le_of_ble_eq_true rfl) (Nat.le_of_ble_eq_true rfl))) (fun s3 hp => ?_)
      have hp := hp.symm
      subst hp
      try dsimp only [Sum.elim_inr] at h
      refine r_aload_n G 2 rfl rfl dX7_walkWrongly_63 ?_
      obtain ⟨o4, e4, h⟩ := ob h
      refine r_callVvx G [] (qX6_takeOutLast hE hT hfl p0 1 hp0 _ e4) ⟨79, 6, _, _, rfl, (kw_WALK ad κ _ _ _ _), rfl⟩ gX7_walkWrongly_X6_takeOutLast rfl hdX6_takeOutLast ⟨Nat.le_of_ble_eq_true rfl, Nat.le_of_ble_eq_true rfl⟩ (Nat.le_of_ble_eq_true rfl) rfl ⟨Nat.le_of_ble_eq_true rfl, Nat.le_of_ble_eq_true rfl⟩ rfl rfl dX7_walkWrongly_64 (fun k9 st9 hp9 => by subst hp9; exact VX_unK (r_out G.unK X9 (fun _ hx => nomatch hx) (Option.some.inj h).symm (Nat.le_of_ble_eq_true rfl) (Nat.le_of_ble_eq_true rfl))) (fun s4 hp => ?_)
      have hp := hp.symm
      subst hp
      try dsimp only [Sum.elim_inr] at h
      refine V_unK ?_
      exact hret _ _ _ _ _ dX7_walkWrongly_67 (Option.some.inj h).symm (Nat.le_of_ble_eq_true rfl) (Nat.le_of_ble_eq_true rfl)
    · rw [if_pos c] at h
      refine r_aload_n G 2 rfl rfl dX7_walkWrongly_47 ?_
      obtain ⟨o5, e5, h⟩ := ob h
      refine r_callVvx G [] (qX6_takeOutLast hE hT hfl p0 1 hp0 _ e5) ⟨79, 6, _, _, rfl, (kw_WALK ad κ _ _ _ _), rfl⟩ gX7_walkWrongly_X6_takeOutLast rfl hdX6_takeOutLast ⟨Nat.le_of_ble_eq_true rfl, Nat.le_of_ble_eq_true rfl⟩ (Nat.le_of_ble_eq_true rfl) rfl ⟨Nat.le_of_ble_eq_true rfl, Nat.le_of_ble_eq_true rfl⟩ rfl rfl dX7_walkWrongly_48 (fun k9 st9 hp9 => by subst hp9; exact VX_unK (r_out G.unK X9 (fun _ hx => nomatch hx) (Option.some.inj h).symm (Nat.le_of_ble_eq_true rfl) (Nat.le_of_ble_eq_true rfl))) (fun s5 hp => ?_)
      have hp := hp.symm
      subst hp
      try dsimp only [Sum.elim_inr] at h
      refine r_goto G (tgt := 67) dX7_walkWrongly_51 (by decide) ?_
      refine V_unK ?_
      exact hret _ _ _ _ _ dX7_walkWrongly_67 (Option.some.inj h).symm (Nat.le_of_ble_eq_true rfl) (Nat.le_of_ble_eq_true rfl)
  · rw [if_pos c] at h
    refine r_iconst G (v := 0) (by decide) dX7_walkWrongly_19 ?_
    refine r_istore G (lv' := [(2, .int (fX2_count p0 s)), (3, .ref q), (4, .int 0)]) [2, 3, 0] rfl (by decide) dX7_walkWrongly_20 ?_
    refine wX7_walkWrongly_L22 hE hT hfl _ _ _ hp0 G X9 hret (fun s7 h => ?_) 1100 _ _ h
    · try dsimp only at h
      refine r_goto G (tgt := 67) dX7_walkWrongly_39 (by decide) ?_
      refine V_unK ?_
      exact hret _ _ _ _ _ dX7_walkWrongly_67 (Option.some.inj h).symm (Nat.le_of_ble_eq_true rfl) (Nat.le_of_ble_eq_true rfl)
abbrev rmX7_isRefusedByView : Room := { frames := 8, cells := 3, slots := 16, locals := 138 }
theorem hdX7_changeByView : yX7_changeByView.cls = RX7 ∧ yX7_changeByView.cls ≠ "java/lang/invoke/MethodHandle" ∧ yX7_changeByView.cls ≠ "java/lang/invoke/VarHandle" ∧ (parseMethodDescriptor yX7_changeByView.desc).map (fun d => d.parameters.length) = some 3 := by decide +kernel
set_option maxRecDepth 20000 in
theorem mX7_isRefusedByView_k281 : Cond.classLink RX7 281 "java/lang/UnsupportedOperationException" ∈ wsX7_isRefusedByView := by decide +kernel
set_option maxHeartbeats 4000000 in
set_option maxRecDepth 100000 in
theorem qX7_isRefusedByView {E : evT} {l : Launch} {D : va_G} {ad : Nat → Nat} {κ : Nat → ClassId} (hE : EvOk E) (hT : TOk E) (hfl : l.stackTraces = false) (hC : COk E) (p0 : Nat) (hp0 : 58 ≤ p0 ∧ p0 < 66) (p1 : Int32) (p2 : Int32) (s : cS) {o : ((Nat × cS) ⊕ (Int32 × cS))} (h : fX7_isRefusedByView p0 p1 p2 s = some o) : Xi l yX7_isRefusedByView wsX7_isRefusedByView rmX7_isRefusedByView (cW ad κ) E D (tyA κ) .boolean [.ref (ad 55), .ref (ad p0), .int p1, .int p2] s (fun r s2 => o = .inr (r, s2)) (fun e s2 => o = .inl (e, s2)) := by
  rw [fX7_isRefusedByView] at h
  refine s_xiH (hh := [(0, 8, 9, 281)]) (cc := cX7_isRefusedByView) (nL := 5) (own := RX7) hE (cW_WA ad κ) (by decide) rfl rfl (Nat.le_of_ble_eq_true rfl) (fun Γ Qc G X9 hret => ?_)
  refine r_aload_n G 0 rfl rfl dX7_isRefusedByView_0 ?_
  refine r_aload_n G 1 rfl rfl dX7_isRefusedByView_1 ?_
  refine r_iload_n G 2 rfl rfl dX7_isRefusedByView_2 ?_
  refine r_iload_n G 3 rfl rfl dX7_isRefusedByView_3 ?_
  obtain ⟨o1, e1, h⟩ := ob h
  refine r_callVvx G [.ref (ad p0), .int p1, .int p2] (qX7_changeByView hE hT hfl p0 hp0 p1 p2 _ e1) ⟨55, 7, _, _, rfl, (cw_SC ad κ _), rfl⟩ gX7_isRefusedByView_X7_changeByView rfl hdX7_changeByView ⟨Nat.le_of_ble_eq_true rfl, Nat.le_of_ble_eq_true rfl⟩ (Nat.le_of_ble_eq_true rfl) rfl ⟨Nat.le_of_ble_eq_true rfl, Nat.le_of_ble_eq_true rfl⟩ rfl rfl dX7_isRefusedByView_4 (fun k9 st9 hp9 => ?_) (fun s1 hp => ?_)
  · subst hp9
    try dsimp only [Sum.elim_inl] at h
    by_cases c9 : k9 = 5
    · subst c9
      rw [if_pos rfl] at h
      refine r_catch G [] ⟨0, 8, 9, 281⟩ [] (by rw [X9.2.1]; rfl) (fun _ hz => nomatch hz) (by decide) (by decide) mX7_isRefusedByView_k281 ((hC _ _ _ G.ev).c5) (fun q => ?_)
      refine r_astore G (lv' := []) [] rfl (by decide) dX7_isRefusedByView_9 ?_
      refine r_iconst G (v := 1) (by decide) dX7_isRefusedByView_11 ?_
      exact hret _ _ _ _ _ _ dX7_isRefusedByView_12 (Option.some.inj h).symm rfl (Nat.le_of_ble_eq_true rfl) (Nat.le_of_ble_eq_true rfl)
    · rw [if_neg c9] at h
      cases h
  have hp := hp.symm
  subst hp
  try dsimp only [Sum.elim_inr] at h
  refine r_iconst G (v := 0) (by decide) dX7_isRefusedByView_7 ?_
  exact hret _ _ _ _ _ _ dX7_isRefusedByView_8 (Option.some.inj h).symm rfl (Nat.le_of_ble_eq_true rfl) (Nat.le_of_ble_eq_true rfl)
abbrev rmX7_isRefusedWithoutOther : Room := { frames := 7, cells := 1, slots := 6, locals := 118 }
set_option maxRecDepth 20000 in
theorem mX7_isRefusedWithoutOther_k268 : Cond.classLink RX7 268 "java/lang/IllegalArgumentException" ∈ wsX7_isRefusedWithoutOther := by decide +kernel
set_option maxHeartbeats 4000000 in
set_option maxRecDepth 100000 in
theorem qX7_isRefusedWithoutOther {E : evT} {l : Launch} {D : va_G} {ad : Nat → Nat} {κ : Nat → ClassId} (hE : EvOk E) (hT : TOk E) (hfl : l.stackTraces = false) (hC : COk E) (p0 : Nat) (hp0 : p0 < 55) (p1 : Int32) (s : cS) {o : ((Nat × cS) ⊕ (Int32 × cS))} (h : fX7_isRefusedWithoutOther p0 p1 s = some o) : Xi l yX7_isRefusedWithoutOther wsX7_isRefusedWithoutOther rmX7_isRefusedWithoutOther (cW ad κ) E D (tyA κ) .boolean [.ref (ad p0), .int p1] s (fun r s2 => o = .inr (r, s2)) (fun e s2 => o = .inl (e, s2)) := by
  rw [fX7_isRefusedWithoutOther] at h
  refine s_xiH (hh := [(2, 65, 66, 268)]) (cc := cX7_isRefusedWithoutOther) (nL := 4) (own := RX7) hE (cW_WA ad κ) (by decide) rfl rfl (Nat.le_of_ble_eq_true rfl) (fun Γ Qc G X9 hret => ?_)
  refine r_null G dX7_isRefusedWithoutOther_0 ?_
  refine r_astore_nN G (lv' := [(0, .ref (ad p0)), (1, .int p1), (2, .null)]) [1, 2, 0] rfl rfl (by decide) dX7_isRefusedWithoutOther_1 ?_
  refine r_iload_n G 1 rfl rfl dX7_isRefusedWithoutOther_2 ?_
  by_cases c0 : p1 = 0
  · rw [if_pos c0] at h
    refine r_tableIn G (tgt := 28) dX7_isRefusedWithoutOther_3 (by rw [c0]; decide) (by rw [c0]; decide) (by rw [c0]; rfl) (by decide) ?_
    refine r_aload_n G 0 rfl rfl dX7_isRefusedWithoutOther_28 ?_
    refine r_iconst G (v := 0) (by decide) dX7_isRefusedWithoutOther_29 ?_
    refine r_aload_nN G 2 rfl rfl dX7_isRefusedWithoutOther_30 ?_
    obtain ⟨o2, e2, h⟩ := ob h
    refine r_callVix G [.int 0, .null] (qX2_combine_null hE hT hfl p0 hp0 (0 : Int32) _ e2) ⟨p0, 2, _, _, rfl, (cw_MS ad κ _ hp0), rfl⟩ gX7_isRefusedWithoutOther_X2_combine rfl hdX2_combine ⟨Nat.le_of_ble_eq_true rfl, Nat.le_of_ble_eq_true rfl⟩ (Nat.le_of_ble_eq_true rfl) rfl ⟨Nat.le_of_ble_eq_true rfl, Nat.le_of_ble_eq_true rfl⟩ rfl rfl dX7_isRefusedWithoutOther_31 (fun k9 st9 hp9 => ?_) (fun r2 s2 hp hn2 => ?_)
    · subst hp9
      try dsimp only [Sum.elim_inl] at h
      by_cases c9 : k9 = 2
      · subst c9
        rw [if_pos rfl] at h
        refine r_catch G [] ⟨2, 65, 66, 268⟩ [] (by rw [X9.2.1]; rfl) (fun _ hz => nomatch hz) (by decide) (by decide) mX7_isRefusedWithoutOther_k268 ((hC _ _ _ G.ev).c2) (fun q => ?_)
        refine r_astore_n G (lv' := []) [] rfl rfl (by decide) dX7_isRefusedWithoutOther_66 ?_
        refine r_iconst G (v := 1) (by decide) dX7_isRefusedWithoutOther_67 ?_
        exact hret _ _ _ _ _ _ dX7_isRefusedWithoutOther_68 (Option.some.inj h).symm rfl (Nat.le_of_ble_eq_true rfl) (Nat.le_of_ble_eq_true rfl)
      · rw [if_neg c9] at h
        cases h
    subst hp
    try dsimp only [Sum.elim_inr] at h
    refine r_pop G rfl dX7_isRefusedWithoutOther_34 ?_
    refine r_goto G (tgt := 64) dX7_isRefusedWithoutOther_35 (by decide) ?_
    refine r_iconst G (v := 0) (by decide) dX7_isRefusedWithoutOther_64 ?_
    exact hret _ _ _ _ _ _ dX7_isRefusedWithoutOther_65 (Option.some.inj h).symm rfl (Nat.le_of_ble_eq_true rfl) (Nat.le_of_ble_eq_true rfl)
  · rw [if_neg c0] at h
    by_cases c1 : p1 = 1
    · rw [if_pos c1] at h
      refine r_tableIn G (tgt := 38) dX7_isRefusedWithoutOther_3 (by rw [c1]; decide) (by rw [c1]; decide) (by rw [c1]; rfl) (by decide) ?_
      refine r_aload_n G 0 rfl rfl dX7_isRefusedWithoutOther_38 ?_
      refine r_iconst G (v := 1) (by decide) dX7_isRefusedWithoutOther_39 ?_
      refine r_aload_nN G 2 rfl rfl dX7_isRefusedWithoutOther_40 ?_
      obtain ⟨o3, e3, h⟩ := ob h
      refine r_callVix G [.int 1, .null] (qX2_combine_null hE hT hfl p0 hp0 (1 : Int32) _ e3) ⟨p0, 2, _, _, rfl, (cw_MS ad κ _ hp0), rfl⟩ gX7_isRefusedWithoutOther_X2_combine rfl hdX2_combine ⟨Nat.le_of_ble_eq_true rfl, Nat.le_of_ble_eq_true rfl⟩ (Nat.le_of_ble_eq_true rfl) rfl ⟨Nat.le_of_ble_eq_true rfl, Nat.le_of_ble_eq_true rfl⟩ rfl rfl dX7_isRefusedWithoutOther_41 (fun k9 st9 hp9 => ?_) (fun r3 s3 hp hn3 => ?_)
      · subst hp9
        try dsimp only [Sum.elim_inl] at h
        by_cases c9 : k9 = 2
        · subst c9
          rw [if_pos rfl] at h
          refine r_catch G [] ⟨2, 65, 66, 268⟩ [] (by rw [X9.2.1]; rfl) (fun _ hz => nomatch hz) (by decide) (by decide) mX7_isRefusedWithoutOther_k268 ((hC _ _ _ G.ev).c2) (fun q => ?_)
          refine r_astore_n G (lv' := []) [] rfl rfl (by decide) dX7_isRefusedWithoutOther_66 ?_
          refine r_iconst G (v := 1) (by decide) dX7_isRefusedWithoutOther_67 ?_
          exact hret _ _ _ _ _ _ dX7_isRefusedWithoutOther_68 (Option.some.inj h).symm rfl (Nat.le_of_ble_eq_true rfl) (Nat.le_of_ble_eq_true rfl)
        · rw [if_neg c9] at h
          cases h
      subst hp
      try dsimp only [Sum.elim_inr] at h
      refine r_pop G rfl dX7_isRefusedWithoutOther_44 ?_
      refine r_goto G (tgt := 64) dX7_isRefusedWithoutOther_45 (by decide) ?_
      refine r_iconst G (v := 0) (by decide) dX7_isRefusedWithoutOther_64 ?_
      exact hret _ _ _ _ _ _ dX7_isRefusedWithoutOther_65 (Option.some.inj h).symm rfl (Nat.le_of_ble_eq_true rfl) (Nat.le_of_ble_eq_true rfl)
    · rw [if_neg c1] at h
      by_cases c2 : p1 = 2
      · rw [if_pos c2] at h
        refine r_tableIn G (tgt := 48) dX7_isRefusedWithoutOther_3 (by rw [c2]; decide) (by rw [c2]; decide) (by rw [c2]; rfl) (by decide) ?_
        refine r_aload_n G 0 rfl rfl dX7_isRefusedWithoutOther_48 ?_
        refine r_iconst G (v := 2) (by decide) dX7_isRefusedWithoutOther_49 ?_
        refine r_aload_nN G 2 rfl rfl dX7_isRefusedWithoutOther_50 ?_
        obtain ⟨o4, e4, h⟩ := ob h
        refine r_callVix G [.int 2, .null] (qX2_combine_null hE hT hfl p0 hp0 (2 : Int32) _ e4) ⟨p0, 2, _, _, rfl, (cw_MS ad κ _ hp0), rfl⟩ gX7_isRefusedWithoutOther_X2_combine rfl hdX2_combine ⟨Nat.le_of_ble_eq_true rfl, Nat.le_of_ble_eq_true rfl⟩ (Nat.le_of_ble_eq_true rfl) rfl ⟨Nat.le_of_ble_eq_true rfl, Nat.le_of_ble_eq_true rfl⟩ rfl rfl dX7_isRefusedWithoutOther_51 (fun k9 st9 hp9 => ?_) (fun r4 s4 hp hn4 => ?_)
        · subst hp9
          try dsimp only [Sum.elim_inl] at h
          by_cases c9 : k9 = 2
          · subst c9
            rw [if_pos rfl] at h
            refine r_catch G [] ⟨2, 65, 66, 268⟩ [] (by rw [X9.2.1]; rfl) (fun _ hz => nomatch hz) (by decide) (by decide) mX7_isRefusedWithoutOther_k268 ((hC _ _ _ G.ev).c2) (fun q => ?_)
            refine r_astore_n G (lv' := []) [] rfl rfl (by decide) dX7_isRefusedWithoutOther_66 ?_
            refine r_iconst G (v := 1) (by decide) dX7_isRefusedWithoutOther_67 ?_
            exact hret _ _ _ _ _ _ dX7_isRefusedWithoutOther_68 (Option.some.inj h).symm rfl (Nat.le_of_ble_eq_true rfl) (Nat.le_of_ble_eq_true rfl)
          · rw [if_neg c9] at h
            cases h
        subst hp
        try dsimp only [Sum.elim_inr] at h
        refine r_pop G rfl dX7_isRefusedWithoutOther_54 ?_
        refine r_goto G (tgt := 64) dX7_isRefusedWithoutOther_55 (by decide) ?_
        refine r_iconst G (v := 0) (by decide) dX7_isRefusedWithoutOther_64 ?_
        exact hret _ _ _ _ _ _ dX7_isRefusedWithoutOther_65 (Option.some.inj h).symm rfl (Nat.le_of_ble_eq_true rfl) (Nat.le_of_ble_eq_true rfl)
      · rw [if_neg c2] at h
        refine r_tableOut G (tgt := 58) dX7_isRefusedWithoutOther_3 (tsw 3 (lt_s (lt_s (lt_s (lt_0) c0) c1) c2)) (by decide) ?_
        refine r_aload_n G 0 rfl rfl dX7_isRefusedWithoutOther_58 ?_
        refine r_aload_nN G 2 rfl rfl dX7_isRefusedWithoutOther_59 ?_
        obtain ⟨o1, e1, h⟩ := ob h
        refine r_callVix G [.null] (qX2_holdsAll_null hE hT hfl p0 hp0 _ e1) ⟨p0, 2, _, _, rfl, (cw_MS ad κ _ hp0), rfl⟩ gX7_isRefusedWithoutOther_X2_holdsAll rfl hdX2_holdsAll ⟨Nat.le_of_ble_eq_true rfl, Nat.le_of_ble_eq_true rfl⟩ (Nat.le_of_ble_eq_true rfl) rfl ⟨Nat.le_of_ble_eq_true rfl, Nat.le_of_ble_eq_true rfl⟩ rfl rfl dX7_isRefusedWithoutOther_60 (fun k9 st9 hp9 => ?_) (fun r1 s1 hp hn1 => ?_)
        · subst hp9
          try dsimp only [Sum.elim_inl] at h
          by_cases c9 : k9 = 2
          · subst c9
            rw [if_pos rfl] at h
            refine r_catch G [] ⟨2, 65, 66, 268⟩ [] (by rw [X9.2.1]; rfl) (fun _ hz => nomatch hz) (by decide) (by decide) mX7_isRefusedWithoutOther_k268 ((hC _ _ _ G.ev).c2) (fun q => ?_)
            refine r_astore_n G (lv' := []) [] rfl rfl (by decide) dX7_isRefusedWithoutOther_66 ?_
            refine r_iconst G (v := 1) (by decide) dX7_isRefusedWithoutOther_67 ?_
            exact hret _ _ _ _ _ _ dX7_isRefusedWithoutOther_68 (Option.some.inj h).symm rfl (Nat.le_of_ble_eq_true rfl) (Nat.le_of_ble_eq_true rfl)
          · rw [if_neg c9] at h
            cases h
        subst hp
        try dsimp only [Sum.elim_inr] at h
        refine r_pop G rfl dX7_isRefusedWithoutOther_63 ?_
        refine r_iconst G (v := 0) (by decide) dX7_isRefusedWithoutOther_64 ?_
        exact hret _ _ _ _ _ _ dX7_isRefusedWithoutOther_65 (Option.some.inj h).symm rfl (Nat.le_of_ble_eq_true rfl) (Nat.le_of_ble_eq_true rfl)
abbrev rmX7_walkRefuses : Room := { frames := 8, cells := 6, slots := 34, locals := 137 }
set_option maxRecDepth 20000 in
theorem kX7_walkRefuses_X7 : ∀ w ∈ u_ws RX7 TX7 8, w ∈ wsX7_walkRefuses := by decide +kernel
set_option maxRecDepth 20000 in
theorem mX7_walkRefuses_f35 : Cond.fieldLink RX7 35 "SetCouncil" "spare" "LSetCouncil$MemberSet;" ∈ wsX7_walkRefuses := by decide +kernel
theorem hdX7_walkWrongly : yX7_walkWrongly.cls ≠ "java/lang/invoke/MethodHandle" ∧ yX7_walkWrongly.cls ≠ "java/lang/invoke/VarHandle" ∧ (parseMethodDescriptor yX7_walkWrongly.desc).map (fun d => d.parameters.length) = some 2 := by decide +kernel
set_option maxRecDepth 20000 in
theorem mX7_walkRefuses_k100 : Cond.classLink RX7 100 "java/util/NoSuchElementException" ∈ wsX7_walkRefuses := by decide +kernel
set_option maxHeartbeats 4000000 in
set_option maxRecDepth 100000 in
theorem qX7_walkRefuses {E : evT} {l : Launch} {D : va_G} {ad : Nat → Nat} {κ : Nat → ClassId} (hE : EvOk E) (hT : TOk E) (hfl : l.stackTraces = false) (hC : COk E) (p0 : Int32) (p1 : Int32) (s : cS) {o : ((Nat × cS) ⊕ (Int32 × cS))} (h : fX7_walkRefuses p0 p1 s = some o) : Xi l yX7_walkRefuses wsX7_walkRefuses rmX7_walkRefuses (cW ad κ) E D (tyA κ) .int [.ref (ad 55), .int p0, .int p1] s (fun r s2 => o = .inr (r, s2)) (fun e s2 => o = .inl (e, s2)) := by
  rw [fX7_walkRefuses] at h
  refine s_xiH (hh := [(20, 29, 30, 100), (20, 29, 34, 152)]) (cc := cX7_walkRefuses) (nL := 5) (own := RX7) hE (cW_WA ad κ) (by decide) rfl rfl (Nat.le_of_ble_eq_true rfl) (fun Γ Qc G X9 hret => ?_)
  refine r_aload_n G 0 rfl rfl dX7_walkRefuses_0 ?_
  refine r_iload_n G 1 rfl rfl dX7_walkRefuses_1 ?_
  obtain ⟨o1, e1, h⟩ := ob h
  refine r_callVrx G [.int p0] (qX7_setAt hE hT hfl p0 _ e1) ⟨55, 7, _, _, rfl, (cw_SC ad κ _), rfl⟩ gX7_walkRefuses_X7_setAt rfl hdX7_setAt ⟨Nat.le_of_ble_eq_true rfl, Nat.le_of_ble_eq_true rfl⟩ (Nat.le_of_ble_eq_true rfl) rfl ⟨Nat.le_of_ble_eq_true rfl, Nat.le_of_ble_eq_true rfl⟩ rfl rfl dX7_walkRefuses_2 (fun k9 st9 hp9 => by subst hp9; exact r_out G X9 (by decide) (Option.some.inj h).symm (Nat.le_of_ble_eq_true rfl) (Nat.le_of_ble_eq_true rfl)) (fun r1 s1 hp => ?_)
  subst hp
  try dsimp only [Sum.elim_inr] at h
  obtain ⟨g2, h⟩ := og h
  refine r_astore_n G (lv' := [(0, .ref (ad 55)), (2, .int p1), (3, .ref (ad r1))]) [1, 3, 0] rfl rfl (by decide) dX7_walkRefuses_5 ?_
  refine r_iload_n G 1 rfl rfl dX7_walkRefuses_6 ?_
  refine r_iconst G (v := 0) (by decide) dX7_walkRefuses_7 ?_
  refine r_iconst G (v := 2) (by decide) dX7_walkRefuses_8 ?_
  obtain ⟨o3, e3, h⟩ := ob h
  refine r_callSvx G [.int p1, .int 0, .int 2] (qX7_checkRange hE hT hfl p1 (0 : Int32) (2 : Int32) _ e3) gX7_walkRefuses_X7_checkRange rfl hdX7_checkRange ⟨Nat.le_of_ble_eq_true rfl, Nat.le_of_ble_eq_true rfl⟩ (Nat.le_of_ble_eq_true rfl) rfl ⟨Nat.le_of_ble_eq_true rfl, Nat.le_of_ble_eq_true rfl⟩ rfl rfl dX7_walkRefuses_9 (fun k9 st9 hp9 => by subst hp9; exact r_out G X9 (by decide) (Option.some.inj h).symm (Nat.le_of_ble_eq_true rfl) (Nat.le_of_ble_eq_true rfl)) (fun s3 hp => ?_)
  have hp := hp.symm
  subst hp
  try dsimp only [Sum.elim_inr] at h
  refine r_aload_n G 0 rfl rfl dX7_walkRefuses_12 ?_
  refine r_get G (C := RX7) (T := TX7) (N := 8) kX7_walkRefuses_X7 55 (cw_SC ad κ _) rfl 4 (by decide) mX7_walkRefuses_f35 rfl rfl dX7_walkRefuses_13 ?_
  refine r_aload_n G 2 rfl rfl dX7_walkRefuses_16 ?_
  obtain ⟨o4, e4, h⟩ := ob h
  refine r_callVv G [.ref (ad r1)] (qX2_become hE 24 (by decide) r1 g2 _ e4) ⟨24, 2, _, _, rfl, (cw_MS ad κ _ (by decide)), rfl⟩ gX7_walkRefuses_X2_become rfl hdX2_become ⟨Nat.le_of_ble_eq_true rfl, Nat.le_of_ble_eq_true rfl⟩ (Nat.le_of_ble_eq_true rfl) rfl ⟨Nat.le_of_ble_eq_true rfl, Nat.le_of_ble_eq_true rfl⟩ rfl rfl dX7_walkRefuses_17 (fun s4 hp => ?_)
  have hp := hp.symm
  subst hp
  try dsimp only at h
  refine r_aload_n G 0 rfl rfl dX7_walkRefuses_20 ?_
  refine r_get G (C := RX7) (T := TX7) (N := 8) kX7_walkRefuses_X7 55 (cw_SC ad κ _) rfl 4 (by decide) mX7_walkRefuses_f35 rfl rfl dX7_walkRefuses_21 ?_
  refine r_iload_n G 1 rfl rfl dX7_walkRefuses_24 ?_
  obtain ⟨o5, e5, h⟩ := ob h
  refine r_callSvx G [.ref (ad 24), .int p1] (qX7_walkWrongly hE hT hfl 24 (by decide) p1 _ e5) gX7_walkRefuses_X7_walkWrongly rfl hdX7_walkWrongly ⟨Nat.le_of_ble_eq_true rfl, Nat.le_of_ble_eq_true rfl⟩ (Nat.le_of_ble_eq_true rfl) rfl ⟨Nat.le_of_ble_eq_true rfl, Nat.le_of_ble_eq_true rfl⟩ rfl rfl dX7_walkRefuses_25 (fun k9 st9 hp9 => ?_) (fun s5 hp => ?_)
  · subst hp9
    try dsimp only [Sum.elim_inl] at h
    by_cases c9 : k9 = 3
    · subst c9
      rw [if_pos rfl] at h
      refine r_catch G [] ⟨20, 29, 30, 100⟩ [⟨20, 29, 34, 152⟩] (by rw [X9.2.1]; rfl) (fun _ hz => nomatch hz) (by decide) (by decide) mX7_walkRefuses_k100 ((hC _ _ _ G.ev).c3) (fun q => ?_)
      refine r_astore G (lv' := []) [] rfl (by decide) dX7_walkRefuses_30 ?_
      refine r_iconst G (v := 1) (by decide) dX7_walkRefuses_32 ?_
      exact hret _ _ _ _ _ _ dX7_walkRefuses_33 (Option.some.inj h).symm rfl (Nat.le_of_ble_eq_true rfl) (Nat.le_of_ble_eq_true rfl)
    · rw [if_neg c9] at h
      by_cases c9 : k9 = 4
      · subst c9
        rw [if_pos rfl] at h
        refine r_catchL G [⟨20, 29, 30, 100⟩] ⟨20, 29, 34, 152⟩ [] (by rw [X9.2.1]; rfl) (fun z hz => by have hz := List.mem_singleton.mp hz; subst hz; exact Or.inr ⟨by decide, _, mX7_walkRefuses_k100, (hC _ _ _ G.ev).n43⟩) (by decide) (by decide) ((hC _ _ _ G.ev).l152) ((hC _ _ _ G.ev).c4) (fun q => ?_)
        refine r_astore G (lv' := []) [] rfl (by decide) dX7_walkRefuses_34 ?_
        refine r_iconst G (v := 2) (by decide) dX7_walkRefuses_36 ?_
        exact hret _ _ _ _ _ _ dX7_walkRefuses_37 (Option.some.inj h).symm rfl (Nat.le_of_ble_eq_true rfl) (Nat.le_of_ble_eq_true rfl)
      · rw [if_neg c9] at h
        cases h
  have hp := hp.symm
  subst hp
  try dsimp only [Sum.elim_inr] at h
  refine r_iconst G (v := (-1)) (by decide) dX7_walkRefuses_28 ?_
  exact hret _ _ _ _ _ _ dX7_walkRefuses_29 (Option.some.inj h).symm rfl (Nat.le_of_ble_eq_true rfl) (Nat.le_of_ble_eq_true rfl)
abbrev rmX7_viewRefuses : Room := { frames := 9, cells := 7, slots := 40, locals := 162 }
set_option maxRecDepth 20000 in
theorem kX7_viewRefuses_X7 : ∀ w ∈ u_ws RX7 TX7 8, w ∈ wsX7_viewRefuses := by decide +kernel
set_option maxRecDepth 20000 in
theorem mX7_viewRefuses_f35 : Cond.fieldLink RX7 35 "SetCouncil" "spare" "LSetCouncil$MemberSet;" ∈ wsX7_viewRefuses := by decide +kernel
theorem hdX7_isRefusedByView : yX7_isRefusedByView.cls = RX7 ∧ yX7_isRefusedByView.cls ≠ "java/lang/invoke/MethodHandle" ∧ yX7_isRefusedByView.cls ≠ "java/lang/invoke/VarHandle" ∧ (parseMethodDescriptor yX7_isRefusedByView.desc).map (fun d => d.parameters.length) = some 3 := by decide +kernel
set_option maxHeartbeats 4000000 in
set_option maxRecDepth 100000 in
theorem qX7_viewRefuses {E : evT} {l : Launch} {D : va_G} {ad : Nat → Nat} {κ : Nat → ClassId} (hE : EvOk E) (hT : TOk E) (hfl : l.stackTraces = false) (hC : COk E) (p0 : Int32) (p1 : Int32) (p2 : Int32) (s : cS) {o : ((Nat × cS) ⊕ (Int32 × cS))} (h : fX7_viewRefuses p0 p1 p2 s = some o) : Xi l yX7_viewRefuses wsX7_viewRefuses rmX7_viewRefuses (cW ad κ) E D (tyA κ) .boolean [.ref (ad 55), .int p0, .int p1, .int p2] s (fun r s2 => o = .inr (r, s2)) (fun e s2 => o = .inl (e, s2)) := by
  rw [fX7_viewRefuses] at h
  refine s_xi (cc := cX7_viewRefuses) (nL := 7) (own := RX7) hE (cW_WA ad κ) (by decide) rfl rfl (Nat.le_of_ble_eq_true rfl) (fun Γ Qc G X9 hret => ?_)
  refine r_aload_n G 0 rfl rfl dX7_viewRefuses_0 ?_
  refine r_iload_n G 1 rfl rfl dX7_viewRefuses_1 ?_
  obtain ⟨o1, e1, h⟩ := ob h
  refine r_callVrx G [.int p0] (qX7_setAt hE hT hfl p0 _ e1) ⟨55, 7, _, _, rfl, (cw_SC ad κ _), rfl⟩ gX7_viewRefuses_X7_setAt rfl hdX7_setAt ⟨Nat.le_of_ble_eq_true rfl, Nat.le_of_ble_eq_true rfl⟩ (Nat.le_of_ble_eq_true rfl) rfl ⟨Nat.le_of_ble_eq_true rfl, Nat.le_of_ble_eq_true rfl⟩ rfl rfl dX7_viewRefuses_2 (fun k9 st9 hp9 => by subst hp9; exact r_out G X9 (fun _ hx => nomatch hx) (Option.some.inj h).symm (Nat.le_of_ble_eq_true rfl) (Nat.le_of_ble_eq_true rfl)) (fun r1 s1 hp => ?_)
  subst hp
  try dsimp only [Sum.elim_inr] at h
  obtain ⟨g2, h⟩ := og h
  refine r_astore G (lv' := [(0, .ref (ad 55)), (1, .int p0), (2, .int p1), (3, .int p2), (4, .ref (ad r1))]) [1, 2, 3, 4, 0] rfl (by decide) dX7_viewRefuses_5 ?_
  refine r_aload_n G 0 rfl rfl dX7_viewRefuses_7 ?_
  refine r_iload_n G 1 rfl rfl dX7_viewRefuses_8 ?_
  obtain ⟨o3, e3, h⟩ := ob h
  refine r_callVrx G [.int p0] (qX7_viewAt hE hT hfl p0 _ e3) ⟨55, 7, _, _, rfl, (cw_SC ad κ _), rfl⟩ gX7_viewRefuses_X7_viewAt rfl hdX7_viewAt ⟨Nat.le_of_ble_eq_true rfl, Nat.le_of_ble_eq_true rfl⟩ (Nat.le_of_ble_eq_true rfl) rfl ⟨Nat.le_of_ble_eq_true rfl, Nat.le_of_ble_eq_true rfl⟩ rfl rfl dX7_viewRefuses_9 (fun k9 st9 hp9 => by subst hp9; exact r_out G X9 (fun _ hx => nomatch hx) (Option.some.inj h).symm (Nat.le_of_ble_eq_true rfl) (Nat.le_of_ble_eq_true rfl)) (fun r3 s3 hp => ?_)
  subst hp
  try dsimp only [Sum.elim_inr] at h
  obtain ⟨g4, h⟩ := og h
  refine r_astore G (lv' := [(0, .ref (ad 55)), (2, .int p1), (3, .int p2), (4, .ref (ad r1)), (5, .ref (ad r3))]) [1, 3, 4, 5, 0] rfl (by decide) dX7_viewRefuses_12 ?_
  refine r_iload_n G 1 rfl rfl dX7_viewRefuses_14 ?_
  refine r_iconst G (v := 0) (by decide) dX7_viewRefuses_15 ?_
  refine r_bipush G (v := 6) (by decide) dX7_viewRefuses_16 ?_
  obtain ⟨o5, e5, h⟩ := ob h
  refine r_callSvx G [.int p1, .int 0, .int 6] (qX7_checkRange hE hT hfl p1 (0 : Int32) (6 : Int32) _ e5) gX7_viewRefuses_X7_checkRange rfl hdX7_checkRange ⟨Nat.le_of_ble_eq_true rfl, Nat.le_of_ble_eq_true rfl⟩ (Nat.le_of_ble_eq_true rfl) rfl ⟨Nat.le_of_ble_eq_true rfl, Nat.le_of_ble_eq_true rfl⟩ rfl rfl dX7_viewRefuses_18 (fun k9 st9 hp9 => by subst hp9; exact r_out G X9 (fun _ hx => nomatch hx) (Option.some.inj h).symm (Nat.le_of_ble_eq_true rfl) (Nat.le_of_ble_eq_true rfl)) (fun s5 hp => ?_)
  have hp := hp.symm
  subst hp
  try dsimp only [Sum.elim_inr] at h
  refine r_iload_n G 2 rfl rfl dX7_viewRefuses_21 ?_
  obtain ⟨o6, e6, h⟩ := ob h
  refine r_callSix G [.int p2] (qX7_indexOfMember hE hT hfl p2 _ e6) gX7_viewRefuses_X7_indexOfMember rfl hdX7_indexOfMember ⟨Nat.le_of_ble_eq_true rfl, Nat.le_of_ble_eq_true rfl⟩ (Nat.le_of_ble_eq_true rfl) rfl ⟨Nat.le_of_ble_eq_true rfl, Nat.le_of_ble_eq_true rfl⟩ rfl rfl dX7_viewRefuses_22 (fun k9 st9 hp9 => by subst hp9; exact r_out G X9 (fun _ hx => nomatch hx) (Option.some.inj h).symm (Nat.le_of_ble_eq_true rfl) (Nat.le_of_ble_eq_true rfl)) (fun r6 s6 hp hn6 => ?_)
  subst hp
  try dsimp only [Sum.elim_inr] at h
  refine r_istore G (lv' := [(0, .ref (ad 55)), (2, .int p1), (4, .ref (ad r1)), (5, .ref (ad r3)), (6, .int r6)]) [1, 2, 4, 5, 0] rfl (by decide) dX7_viewRefuses_25 ?_
  refine r_iload_n G 1 rfl rfl dX7_viewRefuses_27 ?_
  refine r_bipush G (v := 6) (by decide) dX7_viewRefuses_28 ?_
  refine r_icmp_ne G (tgt := 43) dX7_viewRefuses_30 (by decide) (fun c => ?_) (fun c => ?_)
  · rw [if_neg c] at h
    refine r_aload_n G 0 rfl rfl dX7_viewRefuses_43 ?_
    refine r_get G (C := RX7) (T := TX7) (N := 8) kX7_viewRefuses_X7 55 (cw_SC ad κ _) rfl 4 (by decide) mX7_viewRefuses_f35 rfl rfl dX7_viewRefuses_44 ?_
    refine r_aload G 2 rfl dX7_viewRefuses_47 ?_
    obtain ⟨o7, e7, h⟩ := ob h
    refine r_callVv G [.ref (ad r1)] (qX2_become hE 24 (by decide) r1 g2 _ e7) ⟨24, 2, _, _, rfl, (cw_MS ad κ _ (by decide)), rfl⟩ gX7_viewRefuses_X2_become rfl hdX2_become ⟨Nat.le_of_ble_eq_true rfl, Nat.le_of_ble_eq_true rfl⟩ (Nat.le_of_ble_eq_true rfl) rfl ⟨Nat.le_of_ble_eq_true rfl, Nat.le_of_ble_eq_true rfl⟩ rfl rfl dX7_viewRefuses_49 (fun s7 hp => ?_)
    have hp := hp.symm
    subst hp
    try dsimp only at h
    refine r_aload_n G 0 rfl rfl dX7_viewRefuses_52 ?_
    refine r_aload G 3 rfl dX7_viewRefuses_53 ?_
    refine r_iload_n G 1 rfl rfl dX7_viewRefuses_55 ?_
    refine r_iload G 4 rfl dX7_viewRefuses_56 ?_
    obtain ⟨o8, e8, h⟩ := ob h
    refine r_callVixH G [.ref (ad r3), .int p1, .int r6] (qX7_isRefusedByView hE hT hfl hC r3 g4 p1 r6 _ e8) ⟨55, 7, _, _, rfl, (cw_SC ad κ _), rfl⟩ gX7_viewRefuses_X7_isRefusedByView rfl hdX7_isRefusedByView ⟨Nat.le_of_ble_eq_true rfl, Nat.le_of_ble_eq_true rfl⟩ (Nat.le_of_ble_eq_true rfl) rfl ⟨Nat.le_of_ble_eq_true rfl, Nat.le_of_ble_eq_true rfl⟩ rfl rfl dX7_viewRefuses_58 (fun k9 st9 hp9 => by subst hp9; exact r_out G X9 (fun _ hx => nomatch hx) (Option.some.inj h).symm (Nat.le_of_ble_eq_true rfl) (Nat.le_of_ble_eq_true rfl)) (fun r8 s8 hp hn8 => ?_)
    subst hp
    try dsimp only [Sum.elim_inr] at h
    refine r_if_eq G (tgt := 80) dX7_viewRefuses_61 (by decide) (fun c => ?_) (fun c => ?_)
    · rw [if_pos c] at h
      refine r_iconst G (v := 0) (by decide) dX7_viewRefuses_80 ?_
      exact hret _ _ _ _ _ _ dX7_viewRefuses_81 (Option.some.inj h).symm rfl (Nat.le_of_ble_eq_true rfl) (Nat.le_of_ble_eq_true rfl)
    · rw [if_neg c] at h
      refine r_aload G 2 rfl dX7_viewRefuses_64 ?_
      refine r_aload_n G 0 rfl rfl dX7_viewRefuses_66 ?_
      refine r_get G (C := RX7) (T := TX7) (N := 8) kX7_viewRefuses_X7 55 (cw_SC ad κ _) rfl 4 (by decide) mX7_viewRefuses_f35 rfl rfl dX7_viewRefuses_67 ?_
      refine r_callVi G [.ref (ad 24)] (qX2_sameAs hE r1 g2 24 (by decide) _) ⟨r1, 2, _, _, rfl, (cw_MS ad κ _ g2), rfl⟩ gX7_viewRefuses_X2_sameAs rfl hdX2_sameAs ⟨Nat.le_of_ble_eq_true rfl, Nat.le_of_ble_eq_true rfl⟩ (Nat.le_of_ble_eq_true rfl) rfl ⟨Nat.le_of_ble_eq_true rfl, Nat.le_of_ble_eq_true rfl⟩ rfl rfl dX7_viewRefuses_70 (fun r9 s9 hp hn9 => ?_)
      obtain ⟨rfl, hs⟩ := hp
      have hs := hs.symm
      subst hs
      refine r_if_eq G (tgt := 80) dX7_viewRefuses_73 (by decide) (fun c => ?_) (fun c => ?_)
      · rw [if_pos c] at h
        refine r_iconst G (v := 0) (by decide) dX7_viewRefuses_80 ?_
        exact hret _ _ _ _ _ _ dX7_viewRefuses_81 (Option.some.inj h).symm rfl (Nat.le_of_ble_eq_true rfl) (Nat.le_of_ble_eq_true rfl)
      · rw [if_neg c] at h
        refine r_iconst G (v := 1) (by decide) dX7_viewRefuses_76 ?_
        refine r_goto G (tgt := 81) dX7_viewRefuses_77 (by decide) ?_
        exact hret _ _ _ _ _ _ dX7_viewRefuses_81 (Option.some.inj h).symm rfl (Nat.le_of_ble_eq_true rfl) (Nat.le_of_ble_eq_true rfl)
  · rw [if_pos c] at h
    refine r_aload G 2 rfl dX7_viewRefuses_33 ?_
    refine r_callVi G [] (qX2_count hE r1 g2 _) ⟨r1, 2, _, _, rfl, (cw_MS ad κ _ g2), rfl⟩ gX7_viewRefuses_X2_count rfl hdX2_count ⟨Nat.le_of_ble_eq_true rfl, Nat.le_of_ble_eq_true rfl⟩ (Nat.le_of_ble_eq_true rfl) rfl ⟨Nat.le_of_ble_eq_true rfl, Nat.le_of_ble_eq_true rfl⟩ rfl rfl dX7_viewRefuses_35 (fun r10 s10 hp hn10 => ?_)
    obtain ⟨rfl, hs⟩ := hp
    have hs := hs.symm
    subst hs
    refine r_if_ne G (tgt := 43) dX7_viewRefuses_38 (by decide) (fun c => ?_) (fun c => ?_)
    · rw [if_neg c] at h
      refine r_aload_n G 0 rfl rfl dX7_viewRefuses_43 ?_
      refine r_get G (C := RX7) (T := TX7) (N := 8) kX7_viewRefuses_X7 55 (cw_SC ad κ _) rfl 4 (by decide) mX7_viewRefuses_f35 rfl rfl dX7_viewRefuses_44 ?_
      refine r_aload G 2 rfl dX7_viewRefuses_47 ?_
      obtain ⟨o11, e11, h⟩ := ob h
      refine r_callVv G [.ref (ad r1)] (qX2_become hE 24 (by decide) r1 g2 _ e11) ⟨24, 2, _, _, rfl, (cw_MS ad κ _ (by decide)), rfl⟩ gX7_viewRefuses_X2_become rfl hdX2_become ⟨Nat.le_of_ble_eq_true rfl, Nat.le_of_ble_eq_true rfl⟩ (Nat.le_of_ble_eq_true rfl) rfl ⟨Nat.le_of_ble_eq_true rfl, Nat.le_of_ble_eq_true rfl⟩ rfl rfl dX7_viewRefuses_49 (fun s11 hp => ?_)
      have hp := hp.symm
      subst hp
      try dsimp only at h
      refine r_aload_n G 0 rfl rfl dX7_viewRefuses_52 ?_
      refine r_aload G 3 rfl dX7_viewRefuses_53 ?_
      refine r_iload_n G 1 rfl rfl dX7_viewRefuses_55 ?_
      refine r_iload G 4 rfl dX7_viewRefuses_56 ?_
      obtain ⟨o12, e12, h⟩ := ob h
      refine r_callVixH G [.ref (ad r3), .int p1, .int r6] (qX7_isRefusedByView hE hT hfl hC r3 g4 p1 r6 _ e12) ⟨55, 7, _, _, rfl, (cw_SC ad κ _), rfl⟩ gX7_viewRefuses_X7_isRefusedByView rfl hdX7_isRefusedByView ⟨Nat.le_of_ble_eq_true rfl, Nat.le_of_ble_eq_true rfl⟩ (Nat.le_of_ble_eq_true rfl) rfl ⟨Nat.le_of_ble_eq_true rfl, Nat.le_of_ble_eq_true rfl⟩ rfl rfl dX7_viewRefuses_58 (fun k9 st9 hp9 => by subst hp9; exact r_out G X9 (fun _ hx => nomatch hx) (Option.some.inj h).symm (Nat.le_of_ble_eq_true rfl) (Nat.le_of_ble_eq_true rfl)) (fun r12 s12 hp hn12 => ?_)
      subst hp
      try dsimp only [Sum.elim_inr] at h
      refine r_if_eq G (tgt := 80) dX7_viewRefuses_61 (by decide) (fun c => ?_) (fun c => ?_)
      · rw [if_pos c] at h
        refine r_iconst G (v := 0) (by decide) dX7_viewRefuses_80 ?_
        exact hret _ _ _ _ _ _ dX7_viewRefuses_81 (Option.some.inj h).symm rfl (Nat.le_of_ble_eq_true rfl) (Nat.le_of_ble_eq_true rfl)
      · rw [if_neg c] at h
        refine r_aload G 2 rfl dX7_viewRefuses_64 ?_
        refine r_aload_n G 0 rfl rfl dX7_viewRefuses_66 ?_
        refine r_get G (C := RX7) (T := TX7) (N := 8) kX7_viewRefuses_X7 55 (cw_SC ad κ _) rfl 4 (by decide) mX7_viewRefuses_f35 rfl rfl dX7_viewRefuses_67 ?_
        refine r_callVi G [.ref (ad 24)] (qX2_sameAs hE r1 g2 24 (by decide) _) ⟨r1, 2, _, _, rfl, (cw_MS ad κ _ g2), rfl⟩ gX7_viewRefuses_X2_sameAs rfl hdX2_sameAs ⟨Nat.le_of_ble_eq_true rfl, Nat.le_of_ble_eq_true rfl⟩ (Nat.le_of_ble_eq_true rfl) rfl ⟨Nat.le_of_ble_eq_true rfl, Nat.le_of_ble_eq_true rfl⟩ rfl rfl dX7_viewRefuses_70 (fun r13 s13 hp hn13 => ?_)
        obtain ⟨rfl, hs⟩ := hp
        have hs := hs.symm
        subst hs
        refine r_if_eq G (tgt := 80) dX7_viewRefuses_73 (by decide) (fun c => ?_) (fun c => ?_)
        · rw [if_pos c] at h
          refine r_iconst G (v := 0) (by decide) dX7_viewRefuses_80 ?_
          exact hret _ _ _ _ _ _ dX7_viewRefuses_81 (Option.some.inj h).symm rfl (Nat.le_of_ble_eq_true rfl) (Nat.le_of_ble_eq_true rfl)
        · rw [if_neg c] at h
          refine r_iconst G (v := 1) (by decide) dX7_viewRefuses_76 ?_
          refine r_goto G (tgt := 81) dX7_viewRefuses_77 (by decide) ?_
          exact hret _ _ _ _ _ _ dX7_viewRefuses_81 (Option.some.inj h).symm rfl (Nat.le_of_ble_eq_true rfl) (Nat.le_of_ble_eq_true rfl)
    · rw [if_pos c] at h
      refine r_iconst G (v := 0) (by decide) dX7_viewRefuses_41 ?_
      exact hret _ _ _ _ _ _ dX7_viewRefuses_42 (Option.some.inj h).symm rfl (Nat.le_of_ble_eq_true rfl) (Nat.le_of_ble_eq_true rfl)
abbrev rmX7_nullRefuses : Room := { frames := 8, cells := 3, slots := 18, locals := 141 }
set_option maxRecDepth 20000 in
theorem kX7_nullRefuses_X7 : ∀ w ∈ u_ws RX7 TX7 8, w ∈ wsX7_nullRefuses := by decide +kernel
set_option maxRecDepth 20000 in
theorem mX7_nullRefuses_f35 : Cond.fieldLink RX7 35 "SetCouncil" "spare" "LSetCouncil$MemberSet;" ∈ wsX7_nullRefuses := by decide +kernel
theorem hdX7_isRefusedWithoutOther : yX7_isRefusedWithoutOther.cls ≠ "java/lang/invoke/MethodHandle" ∧ yX7_isRefusedWithoutOther.cls ≠ "java/lang/invoke/VarHandle" ∧ (parseMethodDescriptor yX7_isRefusedWithoutOther.desc).map (fun d => d.parameters.length) = some 2 := by decide +kernel
set_option maxHeartbeats 4000000 in
set_option maxRecDepth 100000 in
theorem qX7_nullRefuses {E : evT} {l : Launch} {D : va_G} {ad : Nat → Nat} {κ : Nat → ClassId} (hE : EvOk E) (hT : TOk E) (hfl : l.stackTraces = false) (hC : COk E) (p0 : Int32) (p1 : Int32) (s : cS) {o : ((Nat × cS) ⊕ (Int32 × cS))} (h : fX7_nullRefuses p0 p1 s = some o) : Xi l yX7_nullRefuses wsX7_nullRefuses rmX7_nullRefuses (cW ad κ) E D (tyA κ) .boolean [.ref (ad 55), .int p0, .int p1] s (fun r s2 => o = .inr (r, s2)) (fun e s2 => o = .inl (e, s2)) := by
  rw [fX7_nullRefuses] at h
  refine s_xi (cc := cX7_nullRefuses) (nL := 4) (own := RX7) hE (cW_WA ad κ) (by decide) rfl rfl (Nat.le_of_ble_eq_true rfl) (fun Γ Qc G X9 hret => ?_)
  refine r_aload_n G 0 rfl rfl dX7_nullRefuses_0 ?_
  refine r_iload_n G 1 rfl rfl dX7_nullRefuses_1 ?_
  obtain ⟨o1, e1, h⟩ := ob h
  refine r_callVrx G [.int p0] (qX7_setAt hE hT hfl p0 _ e1) ⟨55, 7, _, _, rfl, (cw_SC ad κ _), rfl⟩ gX7_nullRefuses_X7_setAt rfl hdX7_setAt ⟨Nat.le_of_ble_eq_true rfl, Nat.le_of_ble_eq_true rfl⟩ (Nat.le_of_ble_eq_true rfl) rfl ⟨Nat.le_of_ble_eq_true rfl, Nat.le_of_ble_eq_true rfl⟩ rfl rfl dX7_nullRefuses_2 (fun k9 st9 hp9 => by subst hp9; exact r_out G X9 (fun _ hx => nomatch hx) (Option.some.inj h).symm (Nat.le_of_ble_eq_true rfl) (Nat.le_of_ble_eq_true rfl)) (fun r1 s1 hp => ?_)
  subst hp
  try dsimp only [Sum.elim_inr] at h
  obtain ⟨g2, h⟩ := og h
  refine r_astore_n G (lv' := [(0, .ref (ad 55)), (2, .int p1), (3, .ref (ad r1))]) [1, 3, 0] rfl rfl (by decide) dX7_nullRefuses_5 ?_
  refine r_iload_n G 1 rfl rfl dX7_nullRefuses_6 ?_
  refine r_iconst G (v := 0) (by decide) dX7_nullRefuses_7 ?_
  refine r_iconst G (v := 3) (by decide) dX7_nullRefuses_8 ?_
  obtain ⟨o3, e3, h⟩ := ob h
  refine r_callSvx G [.int p1, .int 0, .int 3] (qX7_checkRange hE hT hfl p1 (0 : Int32) (3 : Int32) _ e3) gX7_nullRefuses_X7_checkRange rfl hdX7_checkRange ⟨Nat.le_of_ble_eq_true rfl, Nat.le_of_ble_eq_true rfl⟩ (Nat.le_of_ble_eq_true rfl) rfl ⟨Nat.le_of_ble_eq_true rfl, Nat.le_of_ble_eq_true rfl⟩ rfl rfl dX7_nullRefuses_9 (fun k9 st9 hp9 => by subst hp9; exact r_out G X9 (fun _ hx => nomatch hx) (Option.some.inj h).symm (Nat.le_of_ble_eq_true rfl) (Nat.le_of_ble_eq_true rfl)) (fun s3 hp => ?_)
  have hp := hp.symm
  subst hp
  try dsimp only [Sum.elim_inr] at h
  refine r_aload_n G 0 rfl rfl dX7_nullRefuses_12 ?_
  refine r_get G (C := RX7) (T := TX7) (N := 8) kX7_nullRefuses_X7 55 (cw_SC ad κ _) rfl 4 (by decide) mX7_nullRefuses_f35 rfl rfl dX7_nullRefuses_13 ?_
  refine r_aload_n G 2 rfl rfl dX7_nullRefuses_16 ?_
  obtain ⟨o4, e4, h⟩ := ob h
  refine r_callVv G [.ref (ad r1)] (qX2_become hE 24 (by decide) r1 g2 _ e4) ⟨24, 2, _, _, rfl, (cw_MS ad κ _ (by decide)), rfl⟩ gX7_nullRefuses_X2_become rfl hdX2_become ⟨Nat.le_of_ble_eq_true rfl, Nat.le_of_ble_eq_true rfl⟩ (Nat.le_of_ble_eq_true rfl) rfl ⟨Nat.le_of_ble_eq_true rfl, Nat.le_of_ble_eq_true rfl⟩ rfl rfl dX7_nullRefuses_17 (fun s4 hp => ?_)
  have hp := hp.symm
  subst hp
  try dsimp only at h
  refine r_aload_n G 2 rfl rfl dX7_nullRefuses_20 ?_
  refine r_iload_n G 1 rfl rfl dX7_nullRefuses_21 ?_
  obtain ⟨o5, e5, h⟩ := ob h
  refine r_callSixH G [.ref (ad r1), .int p1] (qX7_isRefusedWithoutOther hE hT hfl hC r1 g2 p1 _ e5) gX7_nullRefuses_X7_isRefusedWithoutOther rfl hdX7_isRefusedWithoutOther ⟨Nat.le_of_ble_eq_true rfl, Nat.le_of_ble_eq_true rfl⟩ (Nat.le_of_ble_eq_true rfl) rfl ⟨Nat.le_of_ble_eq_true rfl, Nat.le_of_ble_eq_true rfl⟩ rfl rfl dX7_nullRefuses_22 (fun k9 st9 hp9 => by subst hp9; exact r_out G X9 (fun _ hx => nomatch hx) (Option.some.inj h).symm (Nat.le_of_ble_eq_true rfl) (Nat.le_of_ble_eq_true rfl)) (fun r5 s5 hp hn5 => ?_)
  subst hp
  try dsimp only [Sum.elim_inr] at h
  refine r_if_eq G (tgt := 43) dX7_nullRefuses_25 (by decide) (fun c => ?_) (fun c => ?_)
  · rw [if_pos c] at h
    refine r_iconst G (v := 0) (by decide) dX7_nullRefuses_43 ?_
    exact hret _ _ _ _ _ _ dX7_nullRefuses_44 (Option.some.inj h).symm rfl (Nat.le_of_ble_eq_true rfl) (Nat.le_of_ble_eq_true rfl)
  · rw [if_neg c] at h
    refine r_aload_n G 2 rfl rfl dX7_nullRefuses_28 ?_
    refine r_aload_n G 0 rfl rfl dX7_nullRefuses_29 ?_
    refine r_get G (C := RX7) (T := TX7) (N := 8) kX7_nullRefuses_X7 55 (cw_SC ad κ _) rfl 4 (by decide) mX7_nullRefuses_f35 rfl rfl dX7_nullRefuses_30 ?_
    refine r_callVi G [.ref (ad 24)] (qX2_sameAs hE r1 g2 24 (by decide) _) ⟨r1, 2, _, _, rfl, (cw_MS ad κ _ g2), rfl⟩ gX7_nullRefuses_X2_sameAs rfl hdX2_sameAs ⟨Nat.le_of_ble_eq_true rfl, Nat.le_of_ble_eq_true rfl⟩ (Nat.le_of_ble_eq_true rfl) rfl ⟨Nat.le_of_ble_eq_true rfl, Nat.le_of_ble_eq_true rfl⟩ rfl rfl dX7_nullRefuses_33 (fun r6 s6 hp hn6 => ?_)
    obtain ⟨rfl, hs⟩ := hp
    have hs := hs.symm
    subst hs
    refine r_if_eq G (tgt := 43) dX7_nullRefuses_36 (by decide) (fun c => ?_) (fun c => ?_)
    · rw [if_pos c] at h
      refine r_iconst G (v := 0) (by decide) dX7_nullRefuses_43 ?_
      exact hret _ _ _ _ _ _ dX7_nullRefuses_44 (Option.some.inj h).symm rfl (Nat.le_of_ble_eq_true rfl) (Nat.le_of_ble_eq_true rfl)
    · rw [if_neg c] at h
      refine r_iconst G (v := 1) (by decide) dX7_nullRefuses_39 ?_
      refine r_goto G (tgt := 44) dX7_nullRefuses_40 (by decide) ?_
      exact hret _ _ _ _ _ _ dX7_nullRefuses_44 (Option.some.inj h).symm rfl (Nat.le_of_ble_eq_true rfl) (Nat.le_of_ble_eq_true rfl)
