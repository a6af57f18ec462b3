abbrev rmX8_errorKind : Room := { frames := 42, cells := 0, slots := 0, locals := 864 }
set_option maxRecDepth 20000 in
theorem kX8_errorKind_X8 : ∀ w ∈ u_ws RX8 TX8 19, w ∈ wsX8_errorKind := by decide +kernel
set_option maxRecDepth 20000 in
theorem mX8_errorKind_f3 : Cond.fieldLink RX8 3 "SetCouncilModel" "thrown" "I" ∈ wsX8_errorKind := by decide +kernel
theorem hdX8_reads : yX8_reads.cls = RX8 ∧ yX8_reads.cls ≠ "java/lang/invoke/MethodHandle" ∧ yX8_reads.cls ≠ "java/lang/invoke/VarHandle" ∧ (parseMethodDescriptor yX8_reads.desc).map (fun d => d.parameters.length) = some 1 := by decide +kernel
set_option maxRecDepth 20000 in
theorem mX8_errorKind_f164 : Cond.fieldLink RX8 164 "SetCouncilModel" "errorKind" "I" ∈ wsX8_errorKind := by decide +kernel
set_option maxHeartbeats 4000000 in
set_option maxRecDepth 100000 in
theorem qX8_errorKind {E : evT} {l : Launch} {D : va_G} {bd : Nat → Nat} {κ : Nat → ClassId} (hE : EvOk E) (s : mS) {o : (Int32 × mS)} (h : fX8_errorKind s = some o) : Ci l yX8_errorKind wsX8_errorKind rmX8_errorKind (mW bd κ) E D (tyA κ) .int [.ref (bd 67)] s (fun r s2 => o = (r, s2)) := by
  rw [fX8_errorKind] at h
  refine s_i (cc := cX8_errorKind) (nL := 2) (own := RX8) hE (mW_WA bd κ) (plainFor_of_name (by decide)) rfl rfl (Nat.le_of_ble_eq_true rfl) (fun Γ G hret => ?_)
  refine r_aload_n G 0 rfl rfl dX8_errorKind_0 ?_
  refine r_iconst G (v := 0) (by decide) dX8_errorKind_1 ?_
  refine r_put G (C := RX8) (T := TX8) (N := 19) kX8_errorKind_X8 tyX8 tyX8_ok nmX8 67 (mw_MO bd κ _) rfl 0 (by decide) mX8_errorKind_f3 rfl rfl (tyX8_ok 0 (by decide)) rfl rfl (Nat.le_of_ble_eq_true rfl) (mu_thrown bd κ _ _) dX8_errorKind_2 ?_
  refine r_aload_n G 0 rfl rfl dX8_errorKind_5 ?_
  refine r_iconst G (v := 0) (by decide) dX8_errorKind_6 ?_
  obtain ⟨o1, e1, h⟩ := ob h
  refine r_callVi G [.int 0] (qX8_reads hE (0 : Int32) _ e1) ⟨67, 8, _, _, rfl, (mw_MO bd κ _), rfl⟩ gX8_errorKind_X8_reads rfl hdX8_reads ⟨Nat.le_of_ble_eq_true rfl, Nat.le_of_ble_eq_true rfl⟩ (Nat.le_of_ble_eq_true rfl) rfl ⟨Nat.le_of_ble_eq_true rfl, Nat.le_of_ble_eq_true rfl⟩ rfl rfl dX8_errorKind_7 (fun r1 s1 hp hn1 => ?_)
  subst hp
  try dsimp only at h
  refine r_istore_n G (lv' := [(0, .ref (bd 67))]) [1] rfl rfl (by decide) dX8_errorKind_10 ?_
  refine r_aload_n G 0 rfl rfl dX8_errorKind_11 ?_
  refine r_get G (C := RX8) (T := TX8) (N := 19) kX8_errorKind_X8 67 (mw_MO bd κ _) rfl 14 (by decide) mX8_errorKind_f164 rfl rfl dX8_errorKind_12 ?_
  exact hret _ _ _ _ _ _ dX8_errorKind_15 (Option.some.inj h).symm rfl (Nat.le_of_ble_eq_true rfl) (Nat.le_of_ble_eq_true rfl)
abbrev rmX8_errorPlace : Room := { frames := 42, cells := 0, slots := 0, locals := 864 }
set_option maxRecDepth 20000 in
theorem kX8_errorPlace_X8 : ∀ w ∈ u_ws RX8 TX8 19, w ∈ wsX8_errorPlace := by decide +kernel
set_option maxRecDepth 20000 in
theorem mX8_errorPlace_f3 : Cond.fieldLink RX8 3 "SetCouncilModel" "thrown" "I" ∈ wsX8_errorPlace := by decide +kernel
set_option maxRecDepth 20000 in
theorem mX8_errorPlace_f167 : Cond.fieldLink RX8 167 "SetCouncilModel" "errorPlace" "I" ∈ wsX8_errorPlace := by decide +kernel
set_option maxHeartbeats 4000000 in
set_option maxRecDepth 100000 in
theorem qX8_errorPlace {E : evT} {l : Launch} {D : va_G} {bd : Nat → Nat} {κ : Nat → ClassId} (hE : EvOk E) (s : mS) {o : (Int32 × mS)} (h : fX8_errorPlace s = some o) : Ci l yX8_errorPlace wsX8_errorPlace rmX8_errorPlace (mW bd κ) E D (tyA κ) .int [.ref (bd 67)] s (fun r s2 => o = (r, s2)) := by
  rw [fX8_errorPlace] at h
  refine s_i (cc := cX8_errorPlace) (nL := 2) (own := RX8) hE (mW_WA bd κ) (plainFor_of_name (by decide)) rfl rfl (Nat.le_of_ble_eq_true rfl) (fun Γ G hret => ?_)
  refine r_aload_n G 0 rfl rfl dX8_errorPlace_0 ?_
  refine r_iconst G (v := 0) (by decide) dX8_errorPlace_1 ?_
  refine r_put G (C := RX8) (T := TX8) (N := 19) kX8_errorPlace_X8 tyX8 tyX8_ok nmX8 67 (mw_MO bd κ _) rfl 0 (by decide) mX8_errorPlace_f3 rfl rfl (tyX8_ok 0 (by decide)) rfl rfl (Nat.le_of_ble_eq_true rfl) (mu_thrown bd κ _ _) dX8_errorPlace_2 ?_
  refine r_aload_n G 0 rfl rfl dX8_errorPlace_5 ?_
  refine r_iconst G (v := 0) (by decide) dX8_errorPlace_6 ?_
  obtain ⟨o1, e1, h⟩ := ob h
  refine r_callVi G [.int 0] (qX8_reads hE (0 : Int32) _ e1) ⟨67, 8, _, _, rfl, (mw_MO bd κ _), rfl⟩ gX8_errorPlace_X8_reads rfl hdX8_reads ⟨Nat.le_of_ble_eq_true rfl, Nat.le_of_ble_eq_true rfl⟩ (Nat.le_of_ble_eq_true rfl) rfl ⟨Nat.le_of_ble_eq_true rfl, Nat.le_of_ble_eq_true rfl⟩ rfl rfl dX8_errorPlace_7 (fun r1 s1 hp hn1 => ?_)
  subst hp
  try dsimp only at h
  refine r_istore_n G (lv' := [(0, .ref (bd 67))]) [1] rfl rfl (by decide) dX8_errorPlace_10 ?_
  refine r_aload_n G 0 rfl rfl dX8_errorPlace_11 ?_
  refine r_get G (C := RX8) (T := TX8) (N := 19) kX8_errorPlace_X8 67 (mw_MO bd κ _) rfl 15 (by decide) mX8_errorPlace_f167 rfl rfl dX8_errorPlace_12 ?_
  exact hret _ _ _ _ _ _ dX8_errorPlace_15 (Option.some.inj h).symm rfl (Nat.le_of_ble_eq_true rfl) (Nat.le_of_ble_eq_true rfl)
abbrev rmX8_run : Room := { frames := 42, cells := 0, slots := 0, locals := 864 }
set_option maxRecDepth 20000 in
theorem kX8_run_X8 : ∀ w ∈ u_ws RX8 TX8 19, w ∈ wsX8_run := by decide +kernel
set_option maxRecDepth 20000 in
theorem mX8_run_f164 : Cond.fieldLink RX8 164 "SetCouncilModel" "errorKind" "I" ∈ wsX8_run := by decide +kernel
set_option maxHeartbeats 4000000 in
set_option maxRecDepth 100000 in
theorem qX8_run {E : evT} {l : Launch} {D : va_G} {bd : Nat → Nat} {κ : Nat → ClassId} (hE : EvOk E) (s : mS) {o : (Int32 × mS)} (h : fX8_run s = some o) : Ci l yX8_run wsX8_run rmX8_run (mW bd κ) E D (tyA κ) .int [.ref (bd 67)] s (fun r s2 => o = (r, s2)) := by
  rw [fX8_run] at h
  refine s_i (cc := cX8_run) (nL := 2) (own := RX8) hE (mW_WA bd κ) (plainFor_of_name (by decide)) rfl rfl (Nat.le_of_ble_eq_true rfl) (fun Γ G hret => ?_)
  refine r_aload_n G 0 rfl rfl dX8_run_0 ?_
  refine r_iconst G (v := 0) (by decide) dX8_run_1 ?_
  obtain ⟨o1, e1, h⟩ := ob h
  refine r_callVi G [.int 0] (qX8_reads hE (0 : Int32) _ e1) ⟨67, 8, _, _, rfl, (mw_MO bd κ _), rfl⟩ gX8_run_X8_reads rfl hdX8_reads ⟨Nat.le_of_ble_eq_true rfl, Nat.le_of_ble_eq_true rfl⟩ (Nat.le_of_ble_eq_true rfl) rfl ⟨Nat.le_of_ble_eq_true rfl, Nat.le_of_ble_eq_true rfl⟩ rfl rfl dX8_run_2 (fun r1 s1 hp hn1 => ?_)
  subst hp
  try dsimp only at h
  refine r_istore_n G (lv' := [(0, .ref (bd 67))]) [1] rfl rfl (by decide) dX8_run_5 ?_
  refine r_aload_n G 0 rfl rfl dX8_run_6 ?_
  refine r_aload_n G 0 rfl rfl dX8_run_7 ?_
  refine r_get G (C := RX8) (T := TX8) (N := 19) kX8_run_X8 67 (mw_MO bd κ _) rfl 14 (by decide) mX8_run_f164 rfl rfl dX8_run_8 ?_
  refine r_if_ne G (tgt := 18) dX8_run_11 (by decide) (fun c => ?_) (fun c => ?_)
  · rw [if_neg c] at h
    refine r_iconst G (v := 0) (by decide) dX8_run_18 ?_
    refine r_iconst G (v := 1) (by decide) dX8_run_19 ?_
    obtain ⟨o2, e2, h⟩ := ob h
    refine r_callVi G [.int 0, .int 1] (qX8_passes hE (0 : Int32) (1 : Int32) _ e2) ⟨67, 8, _, _, rfl, (mw_MO bd κ _), rfl⟩ gX8_run_X8_passes rfl hdX8_passes ⟨Nat.le_of_ble_eq_true rfl, Nat.le_of_ble_eq_true rfl⟩ (Nat.le_of_ble_eq_true rfl) rfl ⟨Nat.le_of_ble_eq_true rfl, Nat.le_of_ble_eq_true rfl⟩ rfl rfl dX8_run_20 (fun r2 s2 hp hn2 => ?_)
    subst hp
    try dsimp only at h
    refine r_if_eq G (tgt := 34) dX8_run_23 (by decide) (fun c => ?_) (fun c => ?_)
    · rw [if_pos c] at h
      refine r_iconst G (v := 0) (by decide) dX8_run_34 ?_
      exact hret _ _ _ _ _ _ dX8_run_35 (Option.some.inj h).symm rfl (Nat.le_of_ble_eq_true rfl) (Nat.le_of_ble_eq_true rfl)
    · rw [if_neg c] at h
      refine r_aload_n G 0 rfl rfl dX8_run_26 ?_
      refine r_iconst G (v := 1) (by decide) dX8_run_27 ?_
      obtain ⟨o3, e3, h⟩ := ob h
      refine r_callVi G [.int 1] (qX8_reads hE (1 : Int32) _ e3) ⟨67, 8, _, _, rfl, (mw_MO bd κ _), rfl⟩ gX8_run_X8_reads rfl hdX8_reads ⟨Nat.le_of_ble_eq_true rfl, Nat.le_of_ble_eq_true rfl⟩ (Nat.le_of_ble_eq_true rfl) rfl ⟨Nat.le_of_ble_eq_true rfl, Nat.le_of_ble_eq_true rfl⟩ rfl rfl dX8_run_28 (fun r3 s3 hp hn3 => ?_)
      subst hp
      try dsimp only at h
      refine r_goto G (tgt := 35) dX8_run_31 (by decide) ?_
      exact hret _ _ _ _ _ _ dX8_run_35 (Option.some.inj h).symm rfl (Nat.le_of_ble_eq_true rfl) (Nat.le_of_ble_eq_true rfl)
  · rw [if_pos c] at h
    refine r_iconst G (v := 1) (by decide) dX8_run_14 ?_
    refine r_goto G (tgt := 19) dX8_run_15 (by decide) ?_
    refine r_iconst G (v := 1) (by decide) dX8_run_19 ?_
    obtain ⟨o4, e4, h⟩ := ob h
    refine r_callVi G [.int 1, .int 1] (qX8_passes hE (1 : Int32) (1 : Int32) _ e4) ⟨67, 8, _, _, rfl, (mw_MO bd κ _), rfl⟩ gX8_run_X8_passes rfl hdX8_passes ⟨Nat.le_of_ble_eq_true rfl, Nat.le_of_ble_eq_true rfl⟩ (Nat.le_of_ble_eq_true rfl) rfl ⟨Nat.le_of_ble_eq_true rfl, Nat.le_of_ble_eq_true rfl⟩ rfl rfl dX8_run_20 (fun r4 s4 hp hn4 => ?_)
    subst hp
    try dsimp only at h
    refine r_if_eq G (tgt := 34) dX8_run_23 (by decide) (fun c => ?_) (fun c => ?_)
    · rw [if_pos c] at h
      refine r_iconst G (v := 0) (by decide) dX8_run_34 ?_
      exact hret _ _ _ _ _ _ dX8_run_35 (Option.some.inj h).symm rfl (Nat.le_of_ble_eq_true rfl) (Nat.le_of_ble_eq_true rfl)
    · rw [if_neg c] at h
      refine r_aload_n G 0 rfl rfl dX8_run_26 ?_
      refine r_iconst G (v := 1) (by decide) dX8_run_27 ?_
      obtain ⟨o5, e5, h⟩ := ob h
      refine r_callVi G [.int 1] (qX8_reads hE (1 : Int32) _ e5) ⟨67, 8, _, _, rfl, (mw_MO bd κ _), rfl⟩ gX8_run_X8_reads rfl hdX8_reads ⟨Nat.le_of_ble_eq_true rfl, Nat.le_of_ble_eq_true rfl⟩ (Nat.le_of_ble_eq_true rfl) rfl ⟨Nat.le_of_ble_eq_true rfl, Nat.le_of_ble_eq_true rfl⟩ rfl rfl dX8_run_28 (fun r5 s5 hp hn5 => ?_)
      subst hp
      try dsimp only at h
      refine r_goto G (tgt := 35) dX8_run_31 (by decide) ?_
      exact hret _ _ _ _ _ _ dX8_run_35 (Option.some.inj h).symm rfl (Nat.le_of_ble_eq_true rfl) (Nat.le_of_ble_eq_true rfl)
abbrev rmX8_familyErrors : Room := { frames := 4, cells := 0, slots := 0, locals := 95 }
set_option maxRecDepth 20000 in
theorem kX8_familyErrors_X8 : ∀ w ∈ u_ws RX8 TX8 19, w ∈ wsX8_familyErrors := by decide +kernel
set_option maxRecDepth 20000 in
theorem mX8_familyErrors_f3 : Cond.fieldLink RX8 3 "SetCouncilModel" "thrown" "I" ∈ wsX8_familyErrors := by decide +kernel
set_option maxRecDepth 20000 in
theorem mX8_familyErrors_f59 : Cond.fieldLink RX8 59 "SetCouncilModel" "keptMany" "I" ∈ wsX8_familyErrors := by decide +kernel
set_option maxRecDepth 20000 in
theorem mX8_familyErrors_f34 : Cond.fieldLink RX8 34 "SetCouncilModel" "kept" "[[Z" ∈ wsX8_familyErrors := by decide +kernel
set_option maxRecDepth 20000 in
theorem mX8_familyErrors_f50 : Cond.fieldLink RX8 50 "SetCouncilModel" "left" "[Z" ∈ wsX8_familyErrors := by decide +kernel
set_option maxHeartbeats 4000000 in
set_option maxRecDepth 100000 in
theorem wX8_familyErrors_L70 {E : evT} {l : Launch} {D : va_G} {bd : Nat → Nat} {κ : Nat → ClassId} (hE : EvOk E) {Γ : cxT} (G : Cx (mW bd κ) D (tyA κ) E l Γ cX8_familyErrors RX8 wsX8_familyErrors 6 rmX8_familyErrors) (x1 : Int32) (x2 : Int32) (x3 : Int32) {o : (Int32 × mS)} (hret : ∀ (st2 : mS) (v : Int32) (cells slots pc : Nat) (lv : List (Nat × Value)), decode cX8_familyErrors pc = .ok (.ireturn, 1) → o = (v, st2) → narrow .int (.int v) = .int v → cells ≤ rmX8_familyErrors.cells → slots ≤ rmX8_familyErrors.slots → V (mW bd κ) D Γ st2 cells slots pc lv [.int v]) {k0 : Int32 → mS → Option (Int32 × mS)} (hk0 : ∀ (y4 : Int32) (s : mS), k0 y4 s = some o → V (mW bd κ) D Γ s 0 0 139 [(0, .ref (bd 67)), (1, .int x1), (2, .int x2), (3, .int x3), (4, .int y4)] []) : ∀ (fuel : Nat) (x4 : Int32) (x5 : Int32) (s : mS), fX8_familyErrors_L70 x1 x2 x3 k0 fuel x4 x5 s = some o → V (mW bd κ) D Γ s 0 0 70 [(0, .ref (bd 67)), (1, .int x1), (2, .int x2), (3, .int x3), (4, .int x4), (5, .int x5)] [] := by
  intro fuel
  induction fuel with
  | zero =>
    intro _ _ _ h
    have h : none = some o := h
    cases h
  | succ fuel ih =>
    intro x4 x5 s h
    rw [fX8_familyErrors_L70] at h
    refine r_iload G 5 rfl dX8_familyErrors_70 ?_
    refine r_aload_n G 0 rfl rfl dX8_familyErrors_72 ?_
    refine r_get G (C := RX8) (T := TX8) (N := 19) kX8_familyErrors_X8 67 (mw_MO bd κ _) rfl 5 (by decide) mX8_familyErrors_f59 rfl rfl dX8_familyErrors_73 ?_
    refine r_icmp_ge G (tgt := 139) dX8_familyErrors_76 (by decide) (fun c => ?_) (fun c => ?_)
    · rw [if_pos c] at h
      refine V.sub (lv' := [(0, .ref (bd 67)), (1, .int x1), (2, .int x2), (3, .int x3), (4, .int x4)]) [0, 1, 2, 3, 4] rfl ?_
      exact hk0 _ _ h
    · rw [if_neg c] at h
      refine r_iload G 4 rfl dX8_familyErrors_79 ?_
      refine r_aload_n G 0 rfl rfl dX8_familyErrors_81 ?_
      refine r_iload G 5 rfl dX8_familyErrors_82 ?_
      obtain ⟨o5, e5, h⟩ := ob h
      refine r_callVi G [.int x5] (qX8_isPrime hE x5 _ e5) ⟨67, 8, _, _, rfl, (mw_MO bd κ _), rfl⟩ gX8_familyErrors_X8_isPrime rfl hdX8_isPrime ⟨Nat.le_of_ble_eq_true rfl, Nat.le_of_ble_eq_true rfl⟩ (Nat.le_of_ble_eq_true rfl) rfl ⟨Nat.le_of_ble_eq_true rfl, Nat.le_of_ble_eq_true rfl⟩ rfl rfl dX8_familyErrors_84 (fun r5 s5 hp hn5 => ?_)
      subst hp
      try dsimp only at h
      refine r_if_eq G (tgt := 129) dX8_familyErrors_87 (by decide) (fun c => ?_) (fun c => ?_)
      · rw [if_pos c] at h
        refine r_iconst G (v := 0) (by decide) dX8_familyErrors_129 ?_
        refine r_ior G dX8_familyErrors_130 ?_
        refine r_istore G (lv' := [(0, .ref (bd 67)), (1, .int x1), (2, .int x2), (3, .int x3), (4, .int (x4 ||| 0)), (5, .int x5)]) [1, 2, 3, 4, 0, 5] rfl (by decide) dX8_familyErrors_131 ?_
        refine r_iinc G (j := 5) rfl (v := x5 + 1) (lv' := [(0, .ref (bd 67)), (1, .int x1), (2, .int x2), (3, .int x3), (4, .int (x4 ||| 0)), (5, .int (x5 + 1))]) rfl [1, 2, 3, 4, 5, 0] rfl (by decide) dX8_familyErrors_133 ?_
        refine r_goto G (tgt := 70) dX8_familyErrors_136 (by decide) ?_
        exact ih _ _ _ h
      · rw [if_neg c] at h
        refine r_aload_n G 0 rfl rfl dX8_familyErrors_90 ?_
        refine r_get G (C := RX8) (T := TX8) (N := 19) kX8_familyErrors_X8 67 (mw_MO bd κ _) rfl 3 (by decide) mX8_familyErrors_f34 rfl rfl dX8_familyErrors_91 ?_
        refine r_iload G 5 rfl dX8_familyErrors_94 ?_
        obtain ⟨g6, h⟩ := og h
        refine r_aldA G (69 + 0) 5 (mw_GRID bd κ _ (by decide)) rfl (vin_in g6) rfl dX8_familyErrors_96 ?_
        refine r_aload_n G 0 rfl rfl dX8_familyErrors_97 ?_
        refine r_get G (C := RX8) (T := TX8) (N := 19) kX8_familyErrors_X8 67 (mw_MO bd κ _) rfl 3 (by decide) mX8_familyErrors_f34 rfl rfl dX8_familyErrors_98 ?_
        refine r_iload_n G 2 rfl rfl dX8_familyErrors_101 ?_
        obtain ⟨g7, h⟩ := og h
        refine r_aldA G (69 + 0) 5 (mw_GRID bd κ _ (by decide)) rfl (vin_in g7) rfl dX8_familyErrors_102 ?_
        obtain ⟨o8, e8, h⟩ := ob h
        refine r_callSi G [.ref (bd (9 + 7 * 0 + x5.toNatClampNeg)), .ref (bd (9 + 7 * 0 + x2.toNatClampNeg))] (qX8_lies hE (9 + 7 * 0 + x5.toNatClampNeg) (by have := vin_lt g6; have h2 : 0 < 2 := (by decide); omega) (9 + 7 * 0 + x2.toNatClampNeg) (by have := vin_lt g7; have h2 : 0 < 2 := (by decide); omega) _ e8) gX8_familyErrors_X8_lies rfl hdX8_lies ⟨Nat.le_of_ble_eq_true rfl, Nat.le_of_ble_eq_true rfl⟩ (Nat.le_of_ble_eq_true rfl) rfl ⟨Nat.le_of_ble_eq_true rfl, Nat.le_of_ble_eq_true rfl⟩ rfl rfl dX8_familyErrors_103 (fun r8 s8 hp hn8 => ?_)
        subst hp
        try dsimp only at h
        refine r_aload_n G 0 rfl rfl dX8_familyErrors_106 ?_
        refine r_get G (C := RX8) (T := TX8) (N := 19) kX8_familyErrors_X8 67 (mw_MO bd κ _) rfl 3 (by decide) mX8_familyErrors_f34 rfl rfl dX8_familyErrors_107 ?_
        refine r_iload G 5 rfl dX8_familyErrors_110 ?_
        obtain ⟨g9, h⟩ := og h
        refine r_aldA G (69 + 0) 5 (mw_GRID bd κ _ (by decide)) rfl (vin_in g9) rfl dX8_familyErrors_112 ?_
        refine r_aload_n G 0 rfl rfl dX8_familyErrors_113 ?_
        refine r_get G (C := RX8) (T := TX8) (N := 19) kX8_familyErrors_X8 67 (mw_MO bd κ _) rfl 3 (by decide) mX8_familyErrors_f34 rfl rfl dX8_familyErrors_114 ?_
        refine r_iload_n G 3 rfl rfl dX8_familyErrors_117 ?_
        obtain ⟨g10, h⟩ := og h
        refine r_aldA G (69 + 0) 5 (mw_GRID bd κ _ (by decide)) rfl (vin_in g10) rfl dX8_familyErrors_118 ?_
        obtain ⟨o11, e11, h⟩ := ob h
        refine r_callSi G [.ref (bd (9 + 7 * 0 + x5.toNatClampNeg)), .ref (bd (9 + 7 * 0 + x3.toNatClampNeg))] (qX8_lies hE (9 + 7 * 0 + x5.toNatClampNeg) (by have := vin_lt g9; have h2 : 0 < 2 := (by decide); omega) (9 + 7 * 0 + x3.toNatClampNeg) (by have := vin_lt g10; have h2 : 0 < 2 := (by decide); omega) _ e11) gX8_familyErrors_X8_lies rfl hdX8_lies ⟨Nat.le_of_ble_eq_true rfl, Nat.le_of_ble_eq_true rfl⟩ (Nat.le_of_ble_eq_true rfl) rfl ⟨Nat.le_of_ble_eq_true rfl, Nat.le_of_ble_eq_true rfl⟩ rfl rfl dX8_familyErrors_119 (fun r11 s11 hp hn11 => ?_)
        subst hp
        try dsimp only at h
        refine r_icmp_eq G (tgt := 129) dX8_familyErrors_122 (by decide) (fun c => ?_) (fun c => ?_)
        · rw [if_pos c] at h
          refine r_iconst G (v := 0) (by decide) dX8_familyErrors_129 ?_
          refine r_ior G dX8_familyErrors_130 ?_
          refine r_istore G (lv' := [(0, .ref (bd 67)), (1, .int x1), (2, .int x2), (3, .int x3), (4, .int (x4 ||| 0)), (5, .int x5)]) [1, 2, 3, 4, 0, 5] rfl (by decide) dX8_familyErrors_131 ?_
          refine r_iinc G (j := 5) rfl (v := x5 + 1) (lv' := [(0, .ref (bd 67)), (1, .int x1), (2, .int x2), (3, .int x3), (4, .int (x4 ||| 0)), (5, .int (x5 + 1))]) rfl [1, 2, 3, 4, 5, 0] rfl (by decide) dX8_familyErrors_133 ?_
          refine r_goto G (tgt := 70) dX8_familyErrors_136 (by decide) ?_
          exact ih _ _ _ h
        · rw [if_neg c] at h
          refine r_iconst G (v := 1) (by decide) dX8_familyErrors_125 ?_
          refine r_goto G (tgt := 130) dX8_familyErrors_126 (by decide) ?_
          refine r_ior G dX8_familyErrors_130 ?_
          refine r_istore G (lv' := [(0, .ref (bd 67)), (1, .int x1), (2, .int x2), (3, .int x3), (4, .int (x4 ||| 1)), (5, .int x5)]) [1, 2, 3, 4, 0, 5] rfl (by decide) dX8_familyErrors_131 ?_
          refine r_iinc G (j := 5) rfl (v := x5 + 1) (lv' := [(0, .ref (bd 67)), (1, .int x1), (2, .int x2), (3, .int x3), (4, .int (x4 ||| 1)), (5, .int (x5 + 1))]) rfl [1, 2, 3, 4, 5, 0] rfl (by decide) dX8_familyErrors_133 ?_
          refine r_goto G (tgt := 70) dX8_familyErrors_136 (by decide) ?_
          exact ih _ _ _ h
set_option maxHeartbeats 4000000 in
set_option maxRecDepth 100000 in
theorem wX8_familyErrors_L59 {E : evT} {l : Launch} {D : va_G} {bd : Nat → Nat} {κ : Nat → ClassId} (hE : EvOk E) {Γ : cxT} (G : Cx (mW bd κ) D (tyA κ) E l Γ cX8_familyErrors RX8 wsX8_familyErrors 6 rmX8_familyErrors) (x2 : Int32) {o : (Int32 × mS)} (hret : ∀ (st2 : mS) (v : Int32) (cells slots pc : Nat) (lv : List (Nat × Value)), decode cX8_familyErrors pc = .ok (.ireturn, 1) → o = (v, st2) → narrow .int (.int v) = .int v → cells ≤ rmX8_familyErrors.cells → slots ≤ rmX8_familyErrors.slots → V (mW bd κ) D Γ st2 cells slots pc lv [.int v]) {k0 : Int32 → mS → Option (Int32 × mS)} (hk0 : ∀ (y1 : Int32) (s : mS), k0 y1 s = some o → V (mW bd κ) D Γ s 0 0 158 [(0, .ref (bd 67)), (1, .int y1), (2, .int x2)] []) : ∀ (fuel : Nat) (x1 : Int32) (x3 : Int32) (s : mS), fX8_familyErrors_L59 x2 k0 fuel x1 x3 s = some o → V (mW bd κ) D Γ s 0 0 59 [(0, .ref (bd 67)), (1, .int x1), (2, .int x2), (3, .int x3)] [] := by
  intro fuel
  induction fuel with
  | zero =>
    intro _ _ _ h
    have h : none = some o := h
    cases h
  | succ fuel ih =>
    intro x1 x3 s h
    rw [fX8_familyErrors_L59] at h
    refine r_iload_n G 3 rfl rfl dX8_familyErrors_59 ?_
    refine r_iload_n G 2 rfl rfl dX8_familyErrors_60 ?_
    refine r_icmp_ge G (tgt := 158) dX8_familyErrors_61 (by decide) (fun c => ?_) (fun c => ?_)
    · rw [if_pos c] at h
      refine V.sub (lv' := [(0, .ref (bd 67)), (1, .int x1), (2, .int x2)]) [0, 1, 2] rfl ?_
      exact hk0 _ _ h
    · rw [if_neg c] at h
      refine r_iconst G (v := 0) (by decide) dX8_familyErrors_64 ?_
      refine r_istore G (lv' := [(0, .ref (bd 67)), (1, .int x1), (2, .int x2), (3, .int x3), (4, .int 0)]) [1, 2, 3, 4, 0] rfl (by decide) dX8_familyErrors_65 ?_
      refine r_iconst G (v := 0) (by decide) dX8_familyErrors_67 ?_
      refine r_istore G (lv' := [(0, .ref (bd 67)), (1, .int x1), (2, .int x2), (3, .int x3), (4, .int 0), (5, .int 0)]) [1, 2, 3, 4, 5, 0] rfl (by decide) dX8_familyErrors_68 ?_
      refine wX8_familyErrors_L70 hE G _ _ _ hret (fun y4_12 s12 h => ?_) 1100 _ _ _ h
      · try dsimp only at h
        refine r_iload_n G 1 rfl rfl dX8_familyErrors_139 ?_
        refine r_iload G 4 rfl dX8_familyErrors_140 ?_
        refine r_if_eq G (tgt := 149) dX8_familyErrors_142 (by decide) (fun c => ?_) (fun c => ?_)
        · rw [if_pos c] at h
          refine r_iconst G (v := 1) (by decide) dX8_familyErrors_149 ?_
          refine r_iadd G dX8_familyErrors_150 ?_
          refine r_istore_n G (lv' := [(0, .ref (bd 67)), (1, .int (x1 + 1)), (2, .int x2), (3, .int x3)]) [1, 0, 2, 3] rfl rfl (by decide) dX8_familyErrors_151 ?_
          refine r_iinc G (j := 3) rfl (v := x3 + 1) (lv' := [(0, .ref (bd 67)), (1, .int (x1 + 1)), (2, .int x2), (3, .int (x3 + 1))]) rfl [1, 2, 3, 0] rfl (by decide) dX8_familyErrors_152 ?_
          refine r_goto G (tgt := 59) dX8_familyErrors_155 (by decide) ?_
          exact ih _ _ _ h
        · rw [if_neg c] at h
          refine r_iconst G (v := 0) (by decide) dX8_familyErrors_145 ?_
          refine r_goto G (tgt := 150) dX8_familyErrors_146 (by decide) ?_
          refine r_iadd G dX8_familyErrors_150 ?_
          refine r_istore_n G (lv' := [(0, .ref (bd 67)), (1, .int (x1 + 0)), (2, .int x2), (3, .int x3)]) [1, 0, 2, 3] rfl rfl (by decide) dX8_familyErrors_151 ?_
          refine r_iinc G (j := 3) rfl (v := x3 + 1) (lv' := [(0, .ref (bd 67)), (1, .int (x1 + 0)), (2, .int x2), (3, .int (x3 + 1))]) rfl [1, 2, 3, 0] rfl (by decide) dX8_familyErrors_152 ?_
          refine r_goto G (tgt := 59) dX8_familyErrors_155 (by decide) ?_
          exact ih _ _ _ h
set_option maxHeartbeats 4000000 in
set_option maxRecDepth 100000 in
theorem wX8_familyErrors_L9 {E : evT} {l : Launch} {D : va_G} {bd : Nat → Nat} {κ : Nat → ClassId} (hE : EvOk E) {Γ : cxT} (G : Cx (mW bd κ) D (tyA κ) E l Γ cX8_familyErrors RX8 wsX8_familyErrors 6 rmX8_familyErrors) {o : (Int32 × mS)} (hret : ∀ (st2 : mS) (v : Int32) (cells slots pc : Nat) (lv : List (Nat × Value)), decode cX8_familyErrors pc = .ok (.ireturn, 1) → o = (v, st2) → narrow .int (.int v) = .int v → cells ≤ rmX8_familyErrors.cells → slots ≤ rmX8_familyErrors.slots → V (mW bd κ) D Γ st2 cells slots pc lv [.int v]) : ∀ (fuel : Nat) (x1 : Int32) (x2 : Int32) (s : mS), fX8_familyErrors_L9 fuel x1 x2 s = some o → V (mW bd κ) D Γ s 0 0 9 [(0, .ref (bd 67)), (1, .int x1), (2, .int x2)] [] := by
  intro fuel
  induction fuel with
  | zero =>
    intro _ _ _ h
    have h : none = some o := h
    cases h
  | succ fuel ih =>
    intro x1 x2 s h
    rw [fX8_familyErrors_L9] at h
    refine r_iload_n G 2 rfl rfl dX8_familyErrors_9 ?_
    refine r_aload_n G 0 rfl rfl dX8_familyErrors_10 ?_
    refine r_get G (C := RX8) (T := TX8) (N := 19) kX8_familyErrors_X8 67 (mw_MO bd κ _) rfl 5 (by decide) mX8_familyErrors_f59 rfl rfl dX8_familyErrors_11 ?_
    refine r_icmp_ge G (tgt := 164) dX8_familyErrors_14 (by decide) (fun c => ?_) (fun c => ?_)
    · rw [if_pos c] at h
      refine r_iload_n G 1 rfl rfl dX8_familyErrors_164 ?_
      exact hret _ _ _ _ _ _ dX8_familyErrors_165 (Option.some.inj h).symm rfl (Nat.le_of_ble_eq_true rfl) (Nat.le_of_ble_eq_true rfl)
    · rw [if_neg c] at h
      refine r_aload_n G 0 rfl rfl dX8_familyErrors_17 ?_
      refine r_aload_n G 0 rfl rfl dX8_familyErrors_18 ?_
      refine r_get G (C := RX8) (T := TX8) (N := 19) kX8_familyErrors_X8 67 (mw_MO bd κ _) rfl 3 (by decide) mX8_familyErrors_f34 rfl rfl dX8_familyErrors_19 ?_
      refine r_iload_n G 2 rfl rfl dX8_familyErrors_22 ?_
      obtain ⟨g1, h⟩ := og h
      refine r_aldA G (69 + 0) 5 (mw_GRID bd κ _ (by decide)) rfl (vin_in g1) rfl dX8_familyErrors_23 ?_
      refine r_iconst G (v := (-1)) (by decide) dX8_familyErrors_24 ?_
      refine r_iconst G (v := 1) (by decide) dX8_familyErrors_25 ?_
      refine r_aload_n G 0 rfl rfl dX8_familyErrors_26 ?_
      refine r_get G (C := RX8) (T := TX8) (N := 19) kX8_familyErrors_X8 67 (mw_MO bd κ _) rfl 16 (by decide) mX8_familyErrors_f50 rfl rfl dX8_familyErrors_27 ?_
      obtain ⟨o2, e2, h⟩ := ob h
      refine r_callVv G [.ref (bd (9 + 7 * 0 + x2.toNatClampNeg)), .int (-1), .int 1, .ref (bd 64)] (qX8_unites hE (9 + 7 * 0 + x2.toNatClampNeg) (by have := vin_lt g1; have h2 : 0 < 2 := (by decide); omega) (-1 : Int32) (1 : Int32) 64 (by decide) _ e2) ⟨67, 8, _, _, rfl, (mw_MO bd κ _), rfl⟩ gX8_familyErrors_X8_unites rfl hdX8_unites ⟨Nat.le_of_ble_eq_true rfl, Nat.le_of_ble_eq_true rfl⟩ (Nat.le_of_ble_eq_true rfl) rfl ⟨Nat.le_of_ble_eq_true rfl, Nat.le_of_ble_eq_true rfl⟩ rfl rfl dX8_familyErrors_30 (fun s2 hp => ?_)
      have hp := hp.symm
      subst hp
      try dsimp only at h
      refine r_iload_n G 1 rfl rfl dX8_familyErrors_33 ?_
      refine r_aload_n G 0 rfl rfl dX8_familyErrors_34 ?_
      refine r_get G (C := RX8) (T := TX8) (N := 19) kX8_familyErrors_X8 67 (mw_MO bd κ _) rfl 16 (by decide) mX8_familyErrors_f50 rfl rfl dX8_familyErrors_35 ?_
      refine r_aload_n G 0 rfl rfl dX8_familyErrors_38 ?_
      refine r_get G (C := RX8) (T := TX8) (N := 19) kX8_familyErrors_X8 67 (mw_MO bd κ _) rfl 3 (by decide) mX8_familyErrors_f34 rfl rfl dX8_familyErrors_39 ?_
      refine r_iload_n G 2 rfl rfl dX8_familyErrors_42 ?_
      obtain ⟨g3, h⟩ := og h
      refine r_aldA G (69 + 0) 5 (mw_GRID bd κ _ (by decide)) rfl (vin_in g3) rfl dX8_familyErrors_43 ?_
      obtain ⟨o4, e4, h⟩ := ob h
      refine r_callSi G [.ref (bd 64), .ref (bd (9 + 7 * 0 + x2.toNatClampNeg))] (qX8_areSame hE 64 (by decide) (9 + 7 * 0 + x2.toNatClampNeg) (by have := vin_lt g3; have h2 : 0 < 2 := (by decide); omega) _ e4) gX8_familyErrors_X8_areSame rfl hdX8_areSame ⟨Nat.le_of_ble_eq_true rfl, Nat.le_of_ble_eq_true rfl⟩ (Nat.le_of_ble_eq_true rfl) rfl ⟨Nat.le_of_ble_eq_true rfl, Nat.le_of_ble_eq_true rfl⟩ rfl rfl dX8_familyErrors_44 (fun r4 s4 hp hn4 => ?_)
      subst hp
      try dsimp only at h
      refine r_if_eq G (tgt := 54) dX8_familyErrors_47 (by decide) (fun c => ?_) (fun c => ?_)
      · rw [if_pos c] at h
        refine r_iconst G (v := 1) (by decide) dX8_familyErrors_54 ?_
        refine r_iadd G dX8_familyErrors_55 ?_
        refine r_istore_n G (lv' := [(0, .ref (bd 67)), (1, .int (x1 + 1)), (2, .int x2)]) [1, 0, 2] rfl rfl (by decide) dX8_familyErrors_56 ?_
        refine r_iconst G (v := 0) (by decide) dX8_familyErrors_57 ?_
        refine r_istore_n G (lv' := [(0, .ref (bd 67)), (1, .int (x1 + 1)), (2, .int x2), (3, .int 0)]) [1, 2, 3, 0] rfl rfl (by decide) dX8_familyErrors_58 ?_
        refine wX8_familyErrors_L59 hE G _ hret (fun y1_13 s13 h => ?_) 1100 _ _ _ h
        · try dsimp only at h
          refine r_iinc G (j := 2) rfl (v := x2 + 1) (lv' := [(0, .ref (bd 67)), (1, .int y1_13), (2, .int (x2 + 1))]) rfl [1, 2, 0] rfl (by decide) dX8_familyErrors_158 ?_
          refine r_goto G (tgt := 9) dX8_familyErrors_161 (by decide) ?_
          exact ih _ _ _ h
      · rw [if_neg c] at h
        refine r_iconst G (v := 0) (by decide) dX8_familyErrors_50 ?_
        refine r_goto G (tgt := 55) dX8_familyErrors_51 (by decide) ?_
        refine r_iadd G dX8_familyErrors_55 ?_
        refine r_istore_n G (lv' := [(0, .ref (bd 67)), (1, .int (x1 + 0)), (2, .int x2)]) [1, 0, 2] rfl rfl (by decide) dX8_familyErrors_56 ?_
        refine r_iconst G (v := 0) (by decide) dX8_familyErrors_57 ?_
        refine r_istore_n G (lv' := [(0, .ref (bd 67)), (1, .int (x1 + 0)), (2, .int x2), (3, .int 0)]) [1, 2, 3, 0] rfl rfl (by decide) dX8_familyErrors_58 ?_
        refine wX8_familyErrors_L59 hE G _ hret (fun y1_14 s14 h => ?_) 1100 _ _ _ h
        · try dsimp only at h
          refine r_iinc G (j := 2) rfl (v := x2 + 1) (lv' := [(0, .ref (bd 67)), (1, .int y1_14), (2, .int (x2 + 1))]) rfl [1, 2, 0] rfl (by decide) dX8_familyErrors_158 ?_
          refine r_goto G (tgt := 9) dX8_familyErrors_161 (by decide) ?_
          exact ih _ _ _ h
set_option maxHeartbeats 4000000 in
set_option maxRecDepth 100000 in
theorem qX8_familyErrors {E : evT} {l : Launch} {D : va_G} {bd : Nat → Nat} {κ : Nat → ClassId} (hE : EvOk E) (s : mS) {o : (Int32 × mS)} (h : fX8_familyErrors s = some o) : Ci l yX8_familyErrors wsX8_familyErrors rmX8_familyErrors (mW bd κ) E D (tyA κ) .int [.ref (bd 67)] s (fun r s2 => o = (r, s2)) := by
  rw [fX8_familyErrors] at h
  refine s_i (cc := cX8_familyErrors) (nL := 6) (own := RX8) hE (mW_WA bd κ) (plainFor_of_name (by decide)) rfl rfl (Nat.le_of_ble_eq_true rfl) (fun Γ G hret => ?_)
  refine r_aload_n G 0 rfl rfl dX8_familyErrors_0 ?_
  refine r_iconst G (v := 0) (by decide) dX8_familyErrors_1 ?_
  refine r_put G (C := RX8) (T := TX8) (N := 19) kX8_familyErrors_X8 tyX8 tyX8_ok nmX8 67 (mw_MO bd κ _) rfl 0 (by decide) mX8_familyErrors_f3 rfl rfl (tyX8_ok 0 (by decide)) rfl rfl (Nat.le_of_ble_eq_true rfl) (mu_thrown bd κ _ _) dX8_familyErrors_2 ?_
  refine r_iconst G (v := 0) (by decide) dX8_familyErrors_5 ?_
  refine r_istore_n G (lv' := [(0, .ref (bd 67)), (1, .int 0)]) [1, 0] rfl rfl (by decide) dX8_familyErrors_6 ?_
  refine r_iconst G (v := 0) (by decide) dX8_familyErrors_7 ?_
  refine r_istore_n G (lv' := [(0, .ref (bd 67)), (1, .int 0), (2, .int 0)]) [1, 2, 0] rfl rfl (by decide) dX8_familyErrors_8 ?_
  refine wX8_familyErrors_L9 hE G hret 1100 _ _ _ h
