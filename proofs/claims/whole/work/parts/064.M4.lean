abbrev rmX8_type : Room := { frames := 1, cells := 0, slots := 0, locals := 22 }
set_option maxRecDepth 20000 in
theorem mX8_type_c139 : Cond.constantLong RX8 139 (255) ∈ wsX8_type := by decide +kernel
def fX8_type_L5 (x1 : Int64) (k0 : Int32 → mS → Option (Int32 × mS)) : Nat → Int32 → Int32 → mS → Option (Int32 × mS)
  | 0, _, _, _ => none
  | fuel + 1, x3, x4, s => if 8 ≤ x4 then (k0 x3 s) else (if (lg_cmp ((x1 >>> ((8 * x4).toInt64 &&& 63)) &&& 255) 0) = 0 then (fX8_type_L5 x1 k0 fuel (x3 + 0) (x4 + 1) s) else (fX8_type_L5 x1 k0 fuel (x3 + 1) (x4 + 1) s))
set_option maxHeartbeats 4000000 in
set_option maxRecDepth 100000 in
theorem wX8_type_L5 {E : evT} {l : Launch} {D : va_G} {bd : Nat → Nat} {κ : Nat → ClassId} (hE : EvOk E) {Γ : cxT} (G : Cx (mW bd κ) D (tyA κ) E l Γ cX8_type RX8 wsX8_type 6 rmX8_type) (x1 : Int64) {o : (Int32 × mS)} (hret : ∀ (st2 : mS) (v : Int32) (cells slots pc : Nat) (lv : List (Nat × Value)), decode cX8_type pc = .ok (.ireturn, 1) → o = (v, st2) → narrow .int (.int v) = .int v → cells ≤ rmX8_type.cells → slots ≤ rmX8_type.slots → V (mW bd κ) D Γ st2 cells slots pc lv [.int v]) {k0 : Int32 → mS → Option (Int32 × mS)} (hk0 : ∀ (y3 : Int32) (s : mS), k0 y3 s = some o → V (mW bd κ) D Γ s 0 0 42 [(0, .ref (bd 67)), (1, .long x1), (3, .int y3)] []) : ∀ (fuel : Nat) (x3 : Int32) (x4 : Int32) (s : mS), fX8_type_L5 x1 k0 fuel x3 x4 s = some o → V (mW bd κ) D Γ s 0 0 5 [(0, .ref (bd 67)), (1, .long x1), (3, .int x3), (4, .int x4)] [] := by
  intro fuel
  induction fuel with
  | zero =>
    intro _ _ _ h
    have h : none = some o := h
    cases h
  | succ fuel ih =>
    intro x3 x4 s h
    rw [fX8_type_L5] at h
    refine r_iload G 3 rfl dX8_type_5 ?_
    refine r_bipush G (v := 8) (by decide) dX8_type_7 ?_
    refine r_icmp_ge G (tgt := 42) dX8_type_9 (by decide) (fun c => ?_) (fun c => ?_)
    · rw [if_pos c] at h
      refine V.sub [0, 1, 2] rfl ?_
      exact hk0 _ _ h
    · rw [if_neg c] at h
      refine r_iload_n G 2 rfl rfl dX8_type_12 ?_
      refine r_lload_n G 1 rfl rfl dX8_type_13 ?_
      refine r_bipush G (v := 8) (by decide) dX8_type_14 ?_
      refine r_iload G 3 rfl dX8_type_16 ?_
      refine r_imul G dX8_type_18 ?_
      refine r_lshr G dX8_type_19 ?_
      refine r_ldc2 G mX8_type_c139 dX8_type_20 ?_
      refine r_land G dX8_type_23 ?_
      refine r_lconst G (v := 0) (by decide) dX8_type_24 ?_
      refine r_lcmp G dX8_type_25 ?_
      refine r_if_ne G (tgt := 33) dX8_type_26 (by decide) (fun c => ?_) (fun c => ?_)
      · rw [if_neg c] at h
        refine r_iconst G (v := 1) (by decide) dX8_type_33 ?_
        refine r_iadd G dX8_type_34 ?_
        refine r_istore_n G [1, 2, 0, 3] rfl rfl (by decide) dX8_type_35 ?_
        refine r_iinc G (j := 3) rfl (v := x4 + 1) rfl [1, 2, 3, 0] rfl (by decide) dX8_type_36 ?_
        refine r_goto G (tgt := 5) dX8_type_39 (by decide) ?_
        exact ih _ _ _ h
      · rw [if_pos c] at h
        refine r_iconst G (v := 0) (by decide) dX8_type_29 ?_
        refine r_goto G (tgt := 34) dX8_type_30 (by decide) ?_
        refine r_iadd G dX8_type_34 ?_
        refine r_istore_n G [1, 2, 0, 3] rfl rfl (by decide) dX8_type_35 ?_
        refine r_iinc G (j := 3) rfl (v := x4 + 1) rfl [1, 2, 3, 0] rfl (by decide) dX8_type_36 ?_
        refine r_goto G (tgt := 5) dX8_type_39 (by decide) ?_
        exact ih _ _ _ h
set_option maxRecDepth 20000 in
theorem kX8_type_X8 : ∀ w ∈ u_ws RX8 TX8 19, w ∈ wsX8_type := by decide +kernel
set_option maxRecDepth 20000 in
theorem mX8_type_f141 : Cond.fieldLink RX8 141 "SetCouncilModel" "textMany" "I" ∈ wsX8_type := by decide +kernel
set_option maxRecDepth 20000 in
theorem mX8_type_f43 : Cond.fieldLink RX8 43 "SetCouncilModel" "text" "[I" ∈ wsX8_type := by decide +kernel
def fX8_type_L73 (x1 : Int64) : Nat → Int32 → mS → Option (Int32 × mS)
  | 0, _, _ => none
  | fuel + 1, x4, s => if x4 < 0 then (some ((mI s 3, s))) else (if (((x1 >>> ((8 * x4).toInt64 &&& 63)) &&& 255).toInt32) = 0 then (fX8_type_L73 x1 fuel (x4 + (-1)) s) else (if vin (mI s 3) 200 = true then (fX8_type_L73 x1 fuel (x4 + (-1)) (vI (vT s ((mI s 3).toNatClampNeg) (((x1 >>> ((8 * x4).toInt64 &&& 63)) &&& 255).toInt32)) 3 ((mI (vT s ((mI s 3).toNatClampNeg) (((x1 >>> ((8 * x4).toInt64 &&& 63)) &&& 255).toInt32)) 3) + 1))) else none))
set_option maxHeartbeats 4000000 in
set_option maxRecDepth 100000 in
theorem wX8_type_L73 {E : evT} {l : Launch} {D : va_G} {bd : Nat → Nat} {κ : Nat → ClassId} (hE : EvOk E) {Γ : cxT} (G : Cx (mW bd κ) D (tyA κ) E l Γ cX8_type RX8 wsX8_type 6 rmX8_type) (x1 : Int64) {o : (Int32 × mS)} (hret : ∀ (st2 : mS) (v : Int32) (cells slots pc : Nat) (lv : List (Nat × Value)), decode cX8_type pc = .ok (.ireturn, 1) → o = (v, st2) → narrow .int (.int v) = .int v → cells ≤ rmX8_type.cells → slots ≤ rmX8_type.slots → V (mW bd κ) D Γ st2 cells slots pc lv [.int v]) : ∀ (fuel : Nat) (x4 : Int32) (s : mS), fX8_type_L73 x1 fuel x4 s = some o → V (mW bd κ) D Γ s 0 0 73 [(0, .ref (bd 67)), (1, .long x1), (4, .int x4)] [] := by
  intro fuel
  induction fuel with
  | zero =>
    intro _ _ h
    have h : none = some o := h
    cases h
  | succ fuel ih =>
    intro x4 s h
    rw [fX8_type_L73] at h
    refine r_iload G 2 rfl dX8_type_73 ?_
    refine r_if_lt G (tgt := 124) dX8_type_75 (by decide) (fun c => ?_) (fun c => ?_)
    · rw [if_pos c] at h
      refine r_aload_n G 0 rfl rfl dX8_type_124 ?_
      refine r_get G (C := RX8) (T := TX8) (N := 19) kX8_type_X8 67 (mw_MO bd κ _) rfl 9 (by decide) mX8_type_f141 rfl rfl dX8_type_125 ?_
      exact hret _ _ _ _ _ _ dX8_type_128 (Option.some.inj h).symm rfl (Nat.le_of_ble_eq_true rfl) (Nat.le_of_ble_eq_true rfl)
    · rw [if_neg c] at h
      refine r_lload_n G 1 rfl rfl dX8_type_78 ?_
      refine r_bipush G (v := 8) (by decide) dX8_type_79 ?_
      refine r_iload G 2 rfl dX8_type_81 ?_
      refine r_imul G dX8_type_83 ?_
      refine r_lshr G dX8_type_84 ?_
      refine r_ldc2 G mX8_type_c139 dX8_type_85 ?_
      refine r_land G dX8_type_88 ?_
      refine r_l2i G dX8_type_89 ?_
      refine r_istore G [1, 2, 3, 0] rfl (by decide) dX8_type_90 ?_
      refine r_iload G 3 rfl dX8_type_92 ?_
      refine r_if_eq G (tgt := 118) dX8_type_94 (by decide) (fun c => ?_) (fun c => ?_)
      · rw [if_pos c] at h
        refine r_iinc G (j := 2) rfl (v := x4 + (-1)) (iincm _) [1, 2, 0] rfl (by decide) dX8_type_118 ?_
        refine r_goto G (tgt := 73) dX8_type_121 (by decide) ?_
        exact ih _ _ h
      · rw [if_neg c] at h
        refine r_aload_n G 0 rfl rfl dX8_type_97 ?_
        refine r_get G (C := RX8) (T := TX8) (N := 19) kX8_type_X8 67 (mw_MO bd κ _) rfl 8 (by decide) mX8_type_f43 rfl rfl dX8_type_98 ?_
        refine r_aload_n G 0 rfl rfl dX8_type_101 ?_
        refine r_get G (C := RX8) (T := TX8) (N := 19) kX8_type_X8 67 (mw_MO bd κ _) rfl 9 (by decide) mX8_type_f141 rfl rfl dX8_type_102 ?_
        refine r_iload G 3 rfl dX8_type_105 ?_
        obtain ⟨g3, h⟩ := og h
        refine r_iast G 72 3 (mw_MTEXT bd κ _) rfl (vin_in g3) (mu_TEXT bd κ _ _ _) dX8_type_107 ?_
        refine r_aload_n G 0 rfl rfl dX8_type_108 ?_
        refine r_dup G rfl dX8_type_109 ?_
        refine r_get G (C := RX8) (T := TX8) (N := 19) kX8_type_X8 67 (mw_MO bd κ _) rfl 9 (by decide) mX8_type_f141 rfl rfl dX8_type_110 ?_
        refine r_iconst G (v := 1) (by decide) dX8_type_113 ?_
        refine r_iadd G dX8_type_114 ?_
        refine r_put G (C := RX8) (T := TX8) (N := 19) kX8_type_X8 tyX8 tyX8_ok nmX8 67 (mw_MO bd κ _) rfl 9 (by decide) mX8_type_f141 rfl rfl (tyX8_ok 9 (by decide)) rfl rfl (Nat.le_of_ble_eq_true rfl) (mu_textMany bd κ _ _) dX8_type_115 ?_
        refine r_iinc G (j := 2) rfl (v := x4 + (-1)) (iincm _) [1, 2, 0] rfl (by decide) dX8_type_118 ?_
        refine r_goto G (tgt := 73) dX8_type_121 (by decide) ?_
        exact ih _ _ h
def fX8_type (p0 : Int64) (s : mS) : Option (Int32 × mS) := fX8_type_L5 p0 (fun y3_1 s1 => if 200 < ((mI s1 3) + y3_1) then ((fX8_passes (0 : Int32) (1 : Int32) s1).bind (fun (r2, s2) => if r2 = 0 then (some ((0, s2))) else (fX8_type_L73 p0 1100 (7 : Int32) s2))) else ((fX8_passes (1 : Int32) (1 : Int32) s1).bind (fun (r4, s4) => if r4 = 0 then (some ((0, s4))) else (fX8_type_L73 p0 1100 (7 : Int32) s4)))) 1100 (0 : Int32) (0 : Int32) s
set_option maxHeartbeats 4000000 in
set_option maxRecDepth 100000 in
theorem qX8_type {E : evT} {l : Launch} {D : va_G} {bd : Nat → Nat} {κ : Nat → ClassId} (hE : EvOk E) (p0 : Int64) (s : mS) {o : (Int32 × mS)} (h : fX8_type p0 s = some o) : Ci l yX8_type wsX8_type rmX8_type (mW bd κ) E D (tyA κ) .int [.ref (bd 67), .long p0] s (fun r s2 => o = (r, s2)) := by
  rw [fX8_type] at h
  refine s_i (cc := cX8_type) (nL := 6) (own := RX8) hE (mW_WA bd κ) (plainFor_of_name (by decide)) rfl rfl (Nat.le_of_ble_eq_true rfl) (fun Γ G hret => ?_)
  refine r_iconst G (v := 0) (by decide) dX8_type_0 ?_
  refine r_istore_n G [1, 2, 0] rfl rfl (by decide) dX8_type_1 ?_
  refine r_iconst G (v := 0) (by decide) dX8_type_2 ?_
  refine r_istore G [1, 2, 3, 0] rfl (by decide) dX8_type_3 ?_
  refine wX8_type_L5 hE G _ hret (fun y3_1 s1 h => ?_) 1100 _ _ _ h
  · try dsimp only at h
    refine r_aload_n G 0 rfl rfl dX8_type_42 ?_
    refine r_aload_n G 0 rfl rfl dX8_type_43 ?_
    refine r_get G (C := RX8) (T := TX8) (N := 19) kX8_type_X8 67 (mw_MO bd κ _) rfl 9 (by decide) mX8_type_f141 rfl rfl dX8_type_44 ?_
    refine r_iload_n G 2 rfl rfl dX8_type_47 ?_
    refine r_iadd G dX8_type_48 ?_
    refine r_sipush G (v := 200) (by decide) dX8_type_49 ?_
    refine r_icmp_gt G (tgt := 59) dX8_type_52 (by decide) (fun c => ?_) (fun c => ?_)
    · rw [if_pos c] at h
      refine r_iconst G (v := 0) (by decide) dX8_type_59 ?_
      refine r_iconst G (v := 1) (by decide) dX8_type_60 ?_
      obtain ⟨o2, e2, h⟩ := ob h
      refine r_callVi G [.int 0, .int 1] (qX8_passes hE (0 : Int32) (1 : Int32) _ e2) ⟨67, 8, _, _, rfl, (mw_MO bd κ _), rfl⟩ gX8_type_X8_passes rfl hdX8_passes ⟨Nat.le_of_ble_eq_true rfl, Nat.le_of_ble_eq_true rfl⟩ (Nat.le_of_ble_eq_true rfl) rfl ⟨Nat.le_of_ble_eq_true rfl, Nat.le_of_ble_eq_true rfl⟩ rfl rfl dX8_type_61 (fun r2 s2 hp hn2 => ?_)
      subst hp
      try dsimp only at h
      refine r_if_ne G (tgt := 69) dX8_type_64 (by decide) (fun c => ?_) (fun c => ?_)
      · rw [if_neg c] at h
        refine r_bipush G (v := 7) (by decide) dX8_type_69 ?_
        refine r_istore G [1, 2, 0] rfl (by decide) dX8_type_71 ?_
        refine wX8_type_L73 hE G _ hret 1100 _ _ h
      · rw [if_pos c] at h
        refine r_iconst G (v := 0) (by decide) dX8_type_67 ?_
        exact hret _ _ _ _ _ _ dX8_type_68 (Option.some.inj h).symm rfl (Nat.le_of_ble_eq_true rfl) (Nat.le_of_ble_eq_true rfl)
    · rw [if_neg c] at h
      refine r_iconst G (v := 1) (by decide) dX8_type_55 ?_
      refine r_goto G (tgt := 60) dX8_type_56 (by decide) ?_
      refine r_iconst G (v := 1) (by decide) dX8_type_60 ?_
      obtain ⟨o4, e4, h⟩ := ob h
      refine r_callVi G [.int 1, .int 1] (qX8_passes hE (1 : Int32) (1 : Int32) _ e4) ⟨67, 8, _, _, rfl, (mw_MO bd κ _), rfl⟩ gX8_type_X8_passes rfl hdX8_passes ⟨Nat.le_of_ble_eq_true rfl, Nat.le_of_ble_eq_true rfl⟩ (Nat.le_of_ble_eq_true rfl) rfl ⟨Nat.le_of_ble_eq_true rfl, Nat.le_of_ble_eq_true rfl⟩ rfl rfl dX8_type_61 (fun r4 s4 hp hn4 => ?_)
      subst hp
      try dsimp only at h
      refine r_if_ne G (tgt := 69) dX8_type_64 (by decide) (fun c => ?_) (fun c => ?_)
      · rw [if_neg c] at h
        refine r_bipush G (v := 7) (by decide) dX8_type_69 ?_
        refine r_istore G [1, 2, 0] rfl (by decide) dX8_type_71 ?_
        refine wX8_type_L73 hE G _ hret 1100 _ _ h
      · rw [if_pos c] at h
        refine r_iconst G (v := 0) (by decide) dX8_type_67 ?_
        exact hret _ _ _ _ _ _ dX8_type_68 (Option.some.inj h).symm rfl (Nat.le_of_ble_eq_true rfl) (Nat.le_of_ble_eq_true rfl)
abbrev rmX8_clearText : Room := { frames := 0, cells := 0, slots := 0, locals := 0 }
set_option maxRecDepth 20000 in
theorem kX8_clearText_X8 : ∀ w ∈ u_ws RX8 TX8 19, w ∈ wsX8_clearText := by decide +kernel
set_option maxRecDepth 20000 in
theorem mX8_clearText_f3 : Cond.fieldLink RX8 3 "SetCouncilModel" "thrown" "I" ∈ wsX8_clearText := by decide +kernel
set_option maxRecDepth 20000 in
theorem mX8_clearText_f141 : Cond.fieldLink RX8 141 "SetCouncilModel" "textMany" "I" ∈ wsX8_clearText := by decide +kernel
def fX8_clearText (s : mS) : Option (Int32 × mS) := some ((mI (vI s 0 0) 3, vI (vI s 0 0) 3 0))
set_option maxHeartbeats 4000000 in
set_option maxRecDepth 100000 in
theorem qX8_clearText {E : evT} {l : Launch} {D : va_G} {bd : Nat → Nat} {κ : Nat → ClassId} (hE : EvOk E) (s : mS) {o : (Int32 × mS)} (h : fX8_clearText s = some o) : Ci l yX8_clearText wsX8_clearText rmX8_clearText (mW bd κ) E D (tyA κ) .int [.ref (bd 67)] s (fun r s2 => o = (r, s2)) := by
  rw [fX8_clearText] at h
  refine s_i (cc := cX8_clearText) (nL := 2) (own := RX8) hE (mW_WA bd κ) (plainFor_of_name (by decide)) rfl rfl (Nat.le_of_ble_eq_true rfl) (fun Γ G hret => ?_)
  refine r_aload_n G 0 rfl rfl dX8_clearText_0 ?_
  refine r_iconst G (v := 0) (by decide) dX8_clearText_1 ?_
  refine r_put G (C := RX8) (T := TX8) (N := 19) kX8_clearText_X8 tyX8 tyX8_ok nmX8 67 (mw_MO bd κ _) rfl 0 (by decide) mX8_clearText_f3 rfl rfl (tyX8_ok 0 (by decide)) rfl rfl (Nat.le_of_ble_eq_true rfl) (mu_thrown bd κ _ _) dX8_clearText_2 ?_
  refine r_aload_n G 0 rfl rfl dX8_clearText_5 ?_
  refine r_get G (C := RX8) (T := TX8) (N := 19) kX8_clearText_X8 67 (mw_MO bd κ _) rfl 9 (by decide) mX8_clearText_f141 rfl rfl dX8_clearText_6 ?_
  refine r_istore_n G [1, 0] rfl rfl (by decide) dX8_clearText_9 ?_
  refine r_aload_n G 0 rfl rfl dX8_clearText_10 ?_
  refine r_iconst G (v := 0) (by decide) dX8_clearText_11 ?_
  refine r_put G (C := RX8) (T := TX8) (N := 19) kX8_clearText_X8 tyX8 tyX8_ok nmX8 67 (mw_MO bd κ _) rfl 9 (by decide) mX8_clearText_f141 rfl rfl (tyX8_ok 9 (by decide)) rfl rfl (Nat.le_of_ble_eq_true rfl) (mu_textMany bd κ _ _) dX8_clearText_12 ?_
  refine r_iload_n G 1 rfl rfl dX8_clearText_15 ?_
  exact hret _ _ _ _ _ _ dX8_clearText_16 (Option.some.inj h).symm rfl (Nat.le_of_ble_eq_true rfl) (Nat.le_of_ble_eq_true rfl)
abbrev rmX8_textLength : Room := { frames := 0, cells := 0, slots := 0, locals := 0 }
set_option maxRecDepth 20000 in
theorem kX8_textLength_X8 : ∀ w ∈ u_ws RX8 TX8 19, w ∈ wsX8_textLength := by decide +kernel
set_option maxRecDepth 20000 in
theorem mX8_textLength_f3 : Cond.fieldLink RX8 3 "SetCouncilModel" "thrown" "I" ∈ wsX8_textLength := by decide +kernel
set_option maxRecDepth 20000 in
theorem mX8_textLength_f141 : Cond.fieldLink RX8 141 "SetCouncilModel" "textMany" "I" ∈ wsX8_textLength := by decide +kernel
def fX8_textLength (s : mS) : Option (Int32 × mS) := some ((mI (vI s 0 0) 3, vI s 0 0))
set_option maxHeartbeats 4000000 in
set_option maxRecDepth 100000 in
theorem qX8_textLength {E : evT} {l : Launch} {D : va_G} {bd : Nat → Nat} {κ : Nat → ClassId} (hE : EvOk E) (s : mS) {o : (Int32 × mS)} (h : fX8_textLength s = some o) : Ci l yX8_textLength wsX8_textLength rmX8_textLength (mW bd κ) E D (tyA κ) .int [.ref (bd 67)] s (fun r s2 => o = (r, s2)) := by
  rw [fX8_textLength] at h
  refine s_i (cc := cX8_textLength) (nL := 1) (own := RX8) hE (mW_WA bd κ) (plainFor_of_name (by decide)) rfl rfl (Nat.le_of_ble_eq_true rfl) (fun Γ G hret => ?_)
  refine r_aload_n G 0 rfl rfl dX8_textLength_0 ?_
  refine r_iconst G (v := 0) (by decide) dX8_textLength_1 ?_
  refine r_put G (C := RX8) (T := TX8) (N := 19) kX8_textLength_X8 tyX8 tyX8_ok nmX8 67 (mw_MO bd κ _) rfl 0 (by decide) mX8_textLength_f3 rfl rfl (tyX8_ok 0 (by decide)) rfl rfl (Nat.le_of_ble_eq_true rfl) (mu_thrown bd κ _ _) dX8_textLength_2 ?_
  refine r_aload_n G 0 rfl rfl dX8_textLength_5 ?_
  refine r_get G (C := RX8) (T := TX8) (N := 19) kX8_textLength_X8 67 (mw_MO bd κ _) rfl 9 (by decide) mX8_textLength_f141 rfl rfl dX8_textLength_6 ?_
  exact hret _ _ _ _ _ _ dX8_textLength_9 (Option.some.inj h).symm rfl (Nat.le_of_ble_eq_true rfl) (Nat.le_of_ble_eq_true rfl)
abbrev rmX8_fails : Room := { frames := 0, cells := 0, slots := 0, locals := 0 }
set_option maxRecDepth 20000 in
theorem kX8_fails_X8 : ∀ w ∈ u_ws RX8 TX8 19, w ∈ wsX8_fails := by decide +kernel
set_option maxRecDepth 20000 in
theorem mX8_fails_f164 : Cond.fieldLink RX8 164 "SetCouncilModel" "errorKind" "I" ∈ wsX8_fails := by decide +kernel
set_option maxRecDepth 20000 in
theorem mX8_fails_f167 : Cond.fieldLink RX8 167 "SetCouncilModel" "errorPlace" "I" ∈ wsX8_fails := by decide +kernel
def fX8_fails (p0 : Int32) (p1 : Int32) (s : mS) : Option (mS) := if (mI s 7) = 0 then (some (vI (vI s 7 p0) 8 p1)) else (some (s))
set_option maxHeartbeats 4000000 in
set_option maxRecDepth 100000 in
theorem qX8_fails {E : evT} {l : Launch} {D : va_G} {bd : Nat → Nat} {κ : Nat → ClassId} (hE : EvOk E) (p0 : Int32) (p1 : Int32) (s : mS) {o : (mS)} (h : fX8_fails p0 p1 s = some o) : Cv l yX8_fails wsX8_fails rmX8_fails (mW bd κ) E D (tyA κ)  [.ref (bd 67), .int p0, .int p1] s (fun s2 => o = s2) := by
  rw [fX8_fails] at h
  refine s_v (cc := cX8_fails) (nL := 3) (own := RX8) hE (mW_WA bd κ) (by decide) rfl rfl (Nat.le_of_ble_eq_true rfl) (fun Γ G hret => ?_)
  refine r_aload_n G 0 rfl rfl dX8_fails_0 ?_
  refine r_get G (C := RX8) (T := TX8) (N := 19) kX8_fails_X8 67 (mw_MO bd κ _) rfl 14 (by decide) mX8_fails_f164 rfl rfl dX8_fails_1 ?_
  refine r_if_ne G (tgt := 17) dX8_fails_4 (by decide) (fun c => ?_) (fun c => ?_)
  · rw [if_neg c] at h
    exact hret _ _ _ _ _ dX8_fails_17 (Option.some.inj h).symm (Nat.le_of_ble_eq_true rfl) (Nat.le_of_ble_eq_true rfl)
  · rw [if_pos c] at h
    refine r_aload_n G 0 rfl rfl dX8_fails_7 ?_
    refine r_iload_n G 1 rfl rfl dX8_fails_8 ?_
    refine r_put G (C := RX8) (T := TX8) (N := 19) kX8_fails_X8 tyX8 tyX8_ok nmX8 67 (mw_MO bd κ _) rfl 14 (by decide) mX8_fails_f164 rfl rfl (tyX8_ok 14 (by decide)) rfl rfl (Nat.le_of_ble_eq_true rfl) (mu_errorKind bd κ _ _) dX8_fails_9 ?_
    refine r_aload_n G 0 rfl rfl dX8_fails_12 ?_
    refine r_iload_n G 2 rfl rfl dX8_fails_13 ?_
    refine r_put G (C := RX8) (T := TX8) (N := 19) kX8_fails_X8 tyX8 tyX8_ok nmX8 67 (mw_MO bd κ _) rfl 15 (by decide) mX8_fails_f167 rfl rfl (tyX8_ok 15 (by decide)) rfl rfl (Nat.le_of_ble_eq_true rfl) (mu_errorPlace bd κ _ _) dX8_fails_14 ?_
    exact hret _ _ _ _ _ dX8_fails_17 (Option.some.inj h).symm (Nat.le_of_ble_eq_true rfl) (Nat.le_of_ble_eq_true rfl)
abbrev rmX8_sign : Room := { frames := 0, cells := 0, slots := 0, locals := 0 }
set_option maxRecDepth 20000 in
theorem kX8_sign_X8 : ∀ w ∈ u_ws RX8 TX8 19, w ∈ wsX8_sign := by decide +kernel
set_option maxRecDepth 20000 in
theorem mX8_sign_f170 : Cond.fieldLink RX8 170 "SetCouncilModel" "at" "I" ∈ wsX8_sign := by decide +kernel
set_option maxRecDepth 20000 in
theorem mX8_sign_f141 : Cond.fieldLink RX8 141 "SetCouncilModel" "textMany" "I" ∈ wsX8_sign := by decide +kernel
set_option maxRecDepth 20000 in
theorem mX8_sign_f43 : Cond.fieldLink RX8 43 "SetCouncilModel" "text" "[I" ∈ wsX8_sign := by decide +kernel
def fX8_sign (s : mS) : Option (Int32 × mS) := if (mI s 3) ≤ (mI s 5) then (some ((0, s))) else (if vin (mI s 5) 200 = true then (some ((mT s ((mI s 5).toNatClampNeg), s))) else none)
set_option maxHeartbeats 4000000 in
set_option maxRecDepth 100000 in
theorem qX8_sign {E : evT} {l : Launch} {D : va_G} {bd : Nat → Nat} {κ : Nat → ClassId} (hE : EvOk E) (s : mS) {o : (Int32 × mS)} (h : fX8_sign s = some o) : Ci l yX8_sign wsX8_sign rmX8_sign (mW bd κ) E D (tyA κ) .int [.ref (bd 67)] s (fun r s2 => o = (r, s2)) := by
  rw [fX8_sign] at h
  refine s_i (cc := cX8_sign) (nL := 1) (own := RX8) hE (mW_WA bd κ) (plainFor_of_name (by decide)) rfl rfl (Nat.le_of_ble_eq_true rfl) (fun Γ G hret => ?_)
  refine r_aload_n G 0 rfl rfl dX8_sign_0 ?_
  refine r_get G (C := RX8) (T := TX8) (N := 19) kX8_sign_X8 67 (mw_MO bd κ _) rfl 12 (by decide) mX8_sign_f170 rfl rfl dX8_sign_1 ?_
  refine r_aload_n G 0 rfl rfl dX8_sign_4 ?_
  refine r_get G (C := RX8) (T := TX8) (N := 19) kX8_sign_X8 67 (mw_MO bd κ _) rfl 9 (by decide) mX8_sign_f141 rfl rfl dX8_sign_5 ?_
  refine r_icmp_ge G (tgt := 23) dX8_sign_8 (by decide) (fun c => ?_) (fun c => ?_)
  · rw [if_pos c] at h
    refine r_iconst G (v := 0) (by decide) dX8_sign_23 ?_
    exact hret _ _ _ _ _ _ dX8_sign_24 (Option.some.inj h).symm rfl (Nat.le_of_ble_eq_true rfl) (Nat.le_of_ble_eq_true rfl)
  · rw [if_neg c] at h
    refine r_aload_n G 0 rfl rfl dX8_sign_11 ?_
    refine r_get G (C := RX8) (T := TX8) (N := 19) kX8_sign_X8 67 (mw_MO bd κ _) rfl 8 (by decide) mX8_sign_f43 rfl rfl dX8_sign_12 ?_
    refine r_aload_n G 0 rfl rfl dX8_sign_15 ?_
    refine r_get G (C := RX8) (T := TX8) (N := 19) kX8_sign_X8 67 (mw_MO bd κ _) rfl 12 (by decide) mX8_sign_f170 rfl rfl dX8_sign_16 ?_
    obtain ⟨g1, h⟩ := og h
    refine r_iald G 72 3 (mw_MTEXT bd κ _) rfl (vin_in g1) dX8_sign_19 ?_
    refine r_goto G (tgt := 24) dX8_sign_20 (by decide) ?_
    exact hret _ _ _ _ _ _ dX8_sign_24 (Option.some.inj h).symm rfl (Nat.le_of_ble_eq_true rfl) (Nat.le_of_ble_eq_true rfl)
abbrev rmX8_signBehindBlanks : Room := { frames := 1, cells := 0, slots := 0, locals := 20 }
theorem hdX8_sign : yX8_sign.cls = RX8 ∧ yX8_sign.cls ≠ "java/lang/invoke/MethodHandle" ∧ yX8_sign.cls ≠ "java/lang/invoke/VarHandle" ∧ (parseMethodDescriptor yX8_sign.desc).map (fun d => d.parameters.length) = some 0 := by decide +kernel
set_option maxRecDepth 20000 in
theorem kX8_signBehindBlanks_X8 : ∀ w ∈ u_ws RX8 TX8 19, w ∈ wsX8_signBehindBlanks := by decide +kernel
set_option maxRecDepth 20000 in
theorem mX8_signBehindBlanks_f170 : Cond.fieldLink RX8 170 "SetCouncilModel" "at" "I" ∈ wsX8_signBehindBlanks := by decide +kernel
def fX8_signBehindBlanks_L0 (k0 : mS → Option (Int32 × mS)) : Nat → mS → Option (Int32 × mS)
  | 0, _ => none
  | fuel + 1, s => (fX8_sign s).bind (fun (r1, s1) => if r1 = 32 then (fX8_signBehindBlanks_L0 k0 fuel (vI s1 5 ((mI s1 5) + 1))) else ((fX8_sign s1).bind (fun (r2, s2) => if r2 = 10 then (fX8_signBehindBlanks_L0 k0 fuel (vI s2 5 ((mI s2 5) + 1))) else (k0 s2))))
set_option maxHeartbeats 4000000 in
set_option maxRecDepth 100000 in
theorem wX8_signBehindBlanks_L0 {E : evT} {l : Launch} {D : va_G} {bd : Nat → Nat} {κ : Nat → ClassId} (hE : EvOk E) {Γ : cxT} (G : Cx (mW bd κ) D (tyA κ) E l Γ cX8_signBehindBlanks RX8 wsX8_signBehindBlanks 1 rmX8_signBehindBlanks) {o : (Int32 × mS)} (hret : ∀ (st2 : mS) (v : Int32) (cells slots pc : Nat) (lv : List (Nat × Value)), decode cX8_signBehindBlanks pc = .ok (.ireturn, 1) → o = (v, st2) → narrow .int (.int v) = .int v → cells ≤ rmX8_signBehindBlanks.cells → slots ≤ rmX8_signBehindBlanks.slots → V (mW bd κ) D Γ st2 cells slots pc lv [.int v]) {k0 : mS → Option (Int32 × mS)} (hk0 : ∀ (s : mS), k0 s = some o → V (mW bd κ) D Γ s 0 0 31 [(0, .ref (bd 67))] []) : ∀ (fuel : Nat) (s : mS), fX8_signBehindBlanks_L0 k0 fuel s = some o → V (mW bd κ) D Γ s 0 0 0 [(0, .ref (bd 67))] [] := by
  intro fuel
  induction fuel with
  | zero =>
    intro _ h
    have h : none = some o := h
    cases h
  | succ fuel ih =>
    intro s h
    rw [fX8_signBehindBlanks_L0] at h
    refine r_aload_n G 0 rfl rfl dX8_signBehindBlanks_0 ?_
    obtain ⟨o1, e1, h⟩ := ob h
    refine r_callVi G [] (qX8_sign hE _ e1) ⟨67, 8, _, _, rfl, (mw_MO bd κ _), rfl⟩ gX8_signBehindBlanks_X8_sign rfl hdX8_sign ⟨Nat.le_of_ble_eq_true rfl, Nat.le_of_ble_eq_true rfl⟩ (Nat.le_of_ble_eq_true rfl) rfl ⟨Nat.le_of_ble_eq_true rfl, Nat.le_of_ble_eq_true rfl⟩ rfl rfl dX8_signBehindBlanks_1 (fun r1 s1 hp hn1 => ?_)
    subst hp
    try dsimp only at h
    refine r_bipush G (v := 32) (by decide) dX8_signBehindBlanks_4 ?_
    refine r_icmp_eq G (tgt := 18) dX8_signBehindBlanks_6 (by decide) (fun c => ?_) (fun c => ?_)
    · rw [if_pos c] at h
      refine r_aload_n G 0 rfl rfl dX8_signBehindBlanks_18 ?_
      refine r_dup G rfl dX8_signBehindBlanks_19 ?_
      refine r_get G (C := RX8) (T := TX8) (N := 19) kX8_signBehindBlanks_X8 67 (mw_MO bd κ _) rfl 12 (by decide) mX8_signBehindBlanks_f170 rfl rfl dX8_signBehindBlanks_20 ?_
      refine r_iconst G (v := 1) (by decide) dX8_signBehindBlanks_23 ?_
      refine r_iadd G dX8_signBehindBlanks_24 ?_
      refine r_put G (C := RX8) (T := TX8) (N := 19) kX8_signBehindBlanks_X8 tyX8 tyX8_ok nmX8 67 (mw_MO bd κ _) rfl 12 (by decide) mX8_signBehindBlanks_f170 rfl rfl (tyX8_ok 12 (by decide)) rfl rfl (Nat.le_of_ble_eq_true rfl) (mu_at bd κ _ _) dX8_signBehindBlanks_25 ?_
      refine r_goto G (tgt := 0) dX8_signBehindBlanks_28 (by decide) ?_
      exact ih _ h
    · rw [if_neg c] at h
      refine r_aload_n G 0 rfl rfl dX8_signBehindBlanks_9 ?_
      obtain ⟨o2, e2, h⟩ := ob h
      refine r_callVi G [] (qX8_sign hE _ e2) ⟨67, 8, _, _, rfl, (mw_MO bd κ _), rfl⟩ gX8_signBehindBlanks_X8_sign rfl hdX8_sign ⟨Nat.le_of_ble_eq_true rfl, Nat.le_of_ble_eq_true rfl⟩ (Nat.le_of_ble_eq_true rfl) rfl ⟨Nat.le_of_ble_eq_true rfl, Nat.le_of_ble_eq_true rfl⟩ rfl rfl dX8_signBehindBlanks_10 (fun r2 s2 hp hn2 => ?_)
      subst hp
      try dsimp only at h
      refine r_bipush G (v := 10) (by decide) dX8_signBehindBlanks_13 ?_
      refine r_icmp_ne G (tgt := 31) dX8_signBehindBlanks_15 (by decide) (fun c => ?_) (fun c => ?_)
      · rw [if_neg c] at h
        exact hk0 _ h
      · rw [if_pos c] at h
        refine r_aload_n G 0 rfl rfl dX8_signBehindBlanks_18 ?_
        refine r_dup G rfl dX8_signBehindBlanks_19 ?_
        refine r_get G (C := RX8) (T := TX8) (N := 19) kX8_signBehindBlanks_X8 67 (mw_MO bd κ _) rfl 12 (by decide) mX8_signBehindBlanks_f170 rfl rfl dX8_signBehindBlanks_20 ?_
        refine r_iconst G (v := 1) (by decide) dX8_signBehindBlanks_23 ?_
        refine r_iadd G dX8_signBehindBlanks_24 ?_
        refine r_put G (C := RX8) (T := TX8) (N := 19) kX8_signBehindBlanks_X8 tyX8 tyX8_ok nmX8 67 (mw_MO bd κ _) rfl 12 (by decide) mX8_signBehindBlanks_f170 rfl rfl (tyX8_ok 12 (by decide)) rfl rfl (Nat.le_of_ble_eq_true rfl) (mu_at bd κ _ _) dX8_signBehindBlanks_25 ?_
        refine r_goto G (tgt := 0) dX8_signBehindBlanks_28 (by decide) ?_
        exact ih _ h
def fX8_signBehindBlanks (s : mS) : Option (Int32 × mS) := fX8_signBehindBlanks_L0 (fun s3 => (fX8_sign s3).bind (fun (r4, s4) => some ((r4, s4)))) 1100 s
set_option maxHeartbeats 4000000 in
set_option maxRecDepth 100000 in
theorem qX8_signBehindBlanks {E : evT} {l : Launch} {D : va_G} {bd : Nat → Nat} {κ : Nat → ClassId} (hE : EvOk E) (s : mS) {o : (Int32 × mS)} (h : fX8_signBehindBlanks s = some o) : Ci l yX8_signBehindBlanks wsX8_signBehindBlanks rmX8_signBehindBlanks (mW bd κ) E D (tyA κ) .int [.ref (bd 67)] s (fun r s2 => o = (r, s2)) := by
  rw [fX8_signBehindBlanks] at h
  refine s_i (cc := cX8_signBehindBlanks) (nL := 1) (own := RX8) hE (mW_WA bd κ) (plainFor_of_name (by decide)) rfl rfl (Nat.le_of_ble_eq_true rfl) (fun Γ G hret => ?_)
  refine wX8_signBehindBlanks_L0 hE G hret (fun s3 h => ?_) 1100 _ h
  · try dsimp only at h
    refine r_aload_n G 0 rfl rfl dX8_signBehindBlanks_31 ?_
    obtain ⟨o4, e4, h⟩ := ob h
    refine r_callVi G [] (qX8_sign hE _ e4) ⟨67, 8, _, _, rfl, (mw_MO bd κ _), rfl⟩ gX8_signBehindBlanks_X8_sign rfl hdX8_sign ⟨Nat.le_of_ble_eq_true rfl, Nat.le_of_ble_eq_true rfl⟩ (Nat.le_of_ble_eq_true rfl) rfl ⟨Nat.le_of_ble_eq_true rfl, Nat.le_of_ble_eq_true rfl⟩ rfl rfl dX8_signBehindBlanks_32 (fun r4 s4 hp hn4 => ?_)
    subst hp
    try dsimp only at h
    exact hret _ _ _ _ _ _ dX8_signBehindBlanks_35 (Option.some.inj h).symm rfl (Nat.le_of_ble_eq_true rfl) (Nat.le_of_ble_eq_true rfl)
abbrev rmX8_expects : Room := { frames := 2, cells := 0, slots := 0, locals := 40 }
theorem hdX8_signBehindBlanks : yX8_signBehindBlanks.cls = RX8 ∧ yX8_signBehindBlanks.cls ≠ "java/lang/invoke/MethodHandle" ∧ yX8_signBehindBlanks.cls ≠ "java/lang/invoke/VarHandle" ∧ (parseMethodDescriptor yX8_signBehindBlanks.desc).map (fun d => d.parameters.length) = some 0 := by decide +kernel
set_option maxRecDepth 20000 in
theorem kX8_expects_X8 : ∀ w ∈ u_ws RX8 TX8 19, w ∈ wsX8_expects := by decide +kernel
set_option maxRecDepth 20000 in
theorem mX8_expects_f170 : Cond.fieldLink RX8 170 "SetCouncilModel" "at" "I" ∈ wsX8_expects := by decide +kernel
theorem hdX8_fails : yX8_fails.cls = RX8 ∧ yX8_fails.cls ≠ "java/lang/invoke/MethodHandle" ∧ yX8_fails.cls ≠ "java/lang/invoke/VarHandle" ∧ (parseMethodDescriptor yX8_fails.desc).map (fun d => d.parameters.length) = some 2 := by decide +kernel
def fX8_expects (p0 : Int32) (s : mS) : Option (mS) := (fX8_signBehindBlanks s).bind (fun (r1, s1) => if r1 = p0 then (some (vI s1 5 ((mI s1 5) + 1))) else ((fX8_fails (1 : Int32) (mI s1 5) s1).bind (fun s2 => some (s2))))
set_option maxHeartbeats 4000000 in
set_option maxRecDepth 100000 in
theorem qX8_expects {E : evT} {l : Launch} {D : va_G} {bd : Nat → Nat} {κ : Nat → ClassId} (hE : EvOk E) (p0 : Int32) (s : mS) {o : (mS)} (h : fX8_expects p0 s = some o) : Cv l yX8_expects wsX8_expects rmX8_expects (mW bd κ) E D (tyA κ)  [.ref (bd 67), .int p0] s (fun s2 => o = s2) := by
  rw [fX8_expects] at h
  refine s_v (cc := cX8_expects) (nL := 2) (own := RX8) hE (mW_WA bd κ) (by decide) rfl rfl (Nat.le_of_ble_eq_true rfl) (fun Γ G hret => ?_)
  refine r_aload_n G 0 rfl rfl dX8_expects_0 ?_
  obtain ⟨o1, e1, h⟩ := ob h
  refine r_callVi G [] (qX8_signBehindBlanks hE _ e1) ⟨67, 8, _, _, rfl, (mw_MO bd κ _), rfl⟩ gX8_expects_X8_signBehindBlanks rfl hdX8_signBehindBlanks ⟨Nat.le_of_ble_eq_true rfl, Nat.le_of_ble_eq_true rfl⟩ (Nat.le_of_ble_eq_true rfl) rfl ⟨Nat.le_of_ble_eq_true rfl, Nat.le_of_ble_eq_true rfl⟩ rfl rfl dX8_expects_1 (fun r1 s1 hp hn1 => ?_)
  subst hp
  try dsimp only at h
  refine r_iload_n G 1 rfl rfl dX8_expects_4 ?_
  refine r_icmp_ne G (tgt := 21) dX8_expects_5 (by decide) (fun c => ?_) (fun c => ?_)
  · rw [if_neg c] at h
    refine r_aload_n G 0 rfl rfl dX8_expects_21 ?_
    refine r_iconst G (v := 1) (by decide) dX8_expects_22 ?_
    refine r_aload_n G 0 rfl rfl dX8_expects_23 ?_
    refine r_get G (C := RX8) (T := TX8) (N := 19) kX8_expects_X8 67 (mw_MO bd κ _) rfl 12 (by decide) mX8_expects_f170 rfl rfl dX8_expects_24 ?_
    obtain ⟨o2, e2, h⟩ := ob h
    refine r_callVv G [.int 1, .int (mI s1 5)] (qX8_fails hE (1 : Int32) (mI s1 5) _ e2) ⟨67, 8, _, _, rfl, (mw_MO bd κ _), rfl⟩ gX8_expects_X8_fails rfl hdX8_fails ⟨Nat.le_of_ble_eq_true rfl, Nat.le_of_ble_eq_true rfl⟩ (Nat.le_of_ble_eq_true rfl) rfl ⟨Nat.le_of_ble_eq_true rfl, Nat.le_of_ble_eq_true rfl⟩ rfl rfl dX8_expects_27 (fun s2 hp => ?_)
    have hp := hp.symm
    subst hp
    try dsimp only at h
    exact hret _ _ _ _ _ dX8_expects_30 (Option.some.inj h).symm (Nat.le_of_ble_eq_true rfl) (Nat.le_of_ble_eq_true rfl)
  · rw [if_pos c] at h
    refine r_aload_n G 0 rfl rfl dX8_expects_8 ?_
    refine r_dup G rfl dX8_expects_9 ?_
    refine r_get G (C := RX8) (T := TX8) (N := 19) kX8_expects_X8 67 (mw_MO bd κ _) rfl 12 (by decide) mX8_expects_f170 rfl rfl dX8_expects_10 ?_
    refine r_iconst G (v := 1) (by decide) dX8_expects_13 ?_
    refine r_iadd G dX8_expects_14 ?_
    refine r_put G (C := RX8) (T := TX8) (N := 19) kX8_expects_X8 tyX8 tyX8_ok nmX8 67 (mw_MO bd κ _) rfl 12 (by decide) mX8_expects_f170 rfl rfl (tyX8_ok 12 (by decide)) rfl rfl (Nat.le_of_ble_eq_true rfl) (mu_at bd κ _ _) dX8_expects_15 ?_
    refine r_goto G (tgt := 30) dX8_expects_18 (by decide) ?_
    exact hret _ _ _ _ _ dX8_expects_30 (Option.some.inj h).symm (Nat.le_of_ble_eq_true rfl) (Nat.le_of_ble_eq_true rfl)
abbrev rmJ9_min_7cf53 : Room := { frames := 0, cells := 0, slots := 0, locals := 0 }
def fJ9_min_7cf53 (p0 : Int32) (p1 : Int32) (s : mS) : Int32 := if p1 < p0 then (p1) else (p0)
set_option maxHeartbeats 4000000 in
set_option maxRecDepth 100000 in
theorem qJ9_min_7cf53 {E : evT} {l : Launch} {D : va_G} {bd : Nat → Nat} {κ : Nat → ClassId} (hE : EvOk E) (p0 : Int32) (p1 : Int32) (s : mS) : Ci l yJ9_min_7cf53 wsJ9_min_7cf53 rmJ9_min_7cf53 (mW bd κ) E D (tyA κ) .int [.int p0, .int p1] s (fun r s2 => r = fJ9_min_7cf53 p0 p1 s ∧ s2 = s) := by
  obtain ⟨o, h⟩ : ∃ o, fJ9_min_7cf53 p0 p1 s = o := ⟨_, rfl⟩
  rw [h]
  rw [fJ9_min_7cf53] at h
  refine s_i (cc := cJ9_min_7cf53) (nL := 2) (own := RJ9) hE (mW_WA bd κ) (by decide +kernel) rfl rfl (Nat.le_of_ble_eq_true rfl) (fun Γ G hret => ?_)
  refine r_iload_n G 0 rfl rfl dJ9_min_7cf53_0 ?_
  refine r_iload_n G 1 rfl rfl dJ9_min_7cf53_1 ?_
  refine r_icmp_gt G (tgt := 9) dJ9_min_7cf53_2 (by decide) (fun c => ?_) (fun c => ?_)
  · rw [if_pos c] at h
    refine r_iload_n G 1 rfl rfl dJ9_min_7cf53_9 ?_
    exact hret _ _ _ _ _ _ dJ9_min_7cf53_10 ⟨h, rfl⟩ rfl (Nat.le_of_ble_eq_true rfl) (Nat.le_of_ble_eq_true rfl)
  · rw [if_neg c] at h
    refine r_iload_n G 0 rfl rfl dJ9_min_7cf53_5 ?_
    refine r_goto G (tgt := 10) dJ9_min_7cf53_6 (by decide) ?_
    exact hret _ _ _ _ _ _ dJ9_min_7cf53_10 ⟨h, rfl⟩ rfl (Nat.le_of_ble_eq_true rfl) (Nat.le_of_ble_eq_true rfl)
abbrev rmX8_number : Room := { frames := 1, cells := 0, slots := 0, locals := 22 }
set_option maxRecDepth 20000 in
theorem kX8_number_X8 : ∀ w ∈ u_ws RX8 TX8 19, w ∈ wsX8_number := by decide +kernel
set_option maxRecDepth 20000 in
theorem mX8_number_f170 : Cond.fieldLink RX8 170 "SetCouncilModel" "at" "I" ∈ wsX8_number := by decide +kernel
theorem hdJ9_min_7cf53 : yJ9_min_7cf53.cls ≠ "java/lang/invoke/MethodHandle" ∧ yJ9_min_7cf53.cls ≠ "java/lang/invoke/VarHandle" ∧ (parseMethodDescriptor yJ9_min_7cf53.desc).map (fun d => d.parameters.length) = some 2 := by decide +kernel
def fX8_number_L65 (x1 : Int32) (x2 : Int32) (k0 : Int32 → mS → Option (Int32 × mS)) : Nat → Int32 → mS → Option (Int32 × mS)
  | 0, _, _ => none
  | fuel + 1, x3, s => (fX8_sign s).bind (fun (r4, s4) => if (fX8_in r4 (48 : Int32) (57 : Int32) s4) = 0 then (k0 x3 s4) else ((fX8_sign s4).bind (fun (r6, s6) => fX8_number_L65 x1 x2 k0 fuel (fJ9_min_7cf53 (((10 * x3) + r6) - 48) (51 : Int32) s6) (vI s6 5 ((mI s6 5) + 1)))))
set_option maxHeartbeats 4000000 in
set_option maxRecDepth 100000 in
theorem wX8_number_L65 {E : evT} {l : Launch} {D : va_G} {bd : Nat → Nat} {κ : Nat → ClassId} (hE : EvOk E) {Γ : cxT} (G : Cx (mW bd κ) D (tyA κ) E l Γ cX8_number RX8 wsX8_number 4 rmX8_number) (x1 : Int32) (x2 : Int32) {o : (Int32 × mS)} (hret : ∀ (st2 : mS) (v : Int32) (cells slots pc : Nat) (lv : List (Nat × Value)), decode cX8_number pc = .ok (.ireturn, 1) → o = (v, st2) → narrow .int (.int v) = .int v → cells ≤ rmX8_number.cells → slots ≤ rmX8_number.slots → V (mW bd κ) D Γ st2 cells slots pc lv [.int v]) {k0 : Int32 → mS → Option (Int32 × mS)} (hk0 : ∀ (y3 : Int32) (s : mS), k0 y3 s = some o → V (mW bd κ) D Γ s 0 0 110 [(0, .ref (bd 67)), (1, .int x1), (2, .int x2), (3, .int y3)] []) : ∀ (fuel : Nat) (x3 : Int32) (s : mS), fX8_number_L65 x1 x2 k0 fuel x3 s = some o → V (mW bd κ) D Γ s 0 0 65 [(0, .ref (bd 67)), (1, .int x1), (2, .int x2), (3, .int x3)] [] := by
  intro fuel
  induction fuel with
  | zero =>
    intro _ _ h
    have h : none = some o := h
    cases h
  | succ fuel ih =>
    intro x3 s h
    rw [fX8_number_L65] at h
    refine r_aload_n G 0 rfl rfl dX8_number_65 ?_
    obtain ⟨o4, e4, h⟩ := ob h
    refine r_callVi G [] (qX8_sign hE _ e4) ⟨67, 8, _, _, rfl, (mw_MO bd κ _), rfl⟩ gX8_number_X8_sign rfl hdX8_sign ⟨Nat.le_of_ble_eq_true rfl, Nat.le_of_ble_eq_true rfl⟩ (Nat.le_of_ble_eq_true rfl) rfl ⟨Nat.le_of_ble_eq_true rfl, Nat.le_of_ble_eq_true rfl⟩ rfl rfl dX8_number_66 (fun r4 s4 hp hn4 => ?_)
    subst hp
    try dsimp only at h
    refine r_bipush G (v := 48) (by decide) dX8_number_69 ?_
    refine r_bipush G (v := 57) (by decide) dX8_number_71 ?_
    refine r_callSi G [.int r4, .int 48, .int 57] (qX8_in hE r4 (48 : Int32) (57 : Int32) _) gX8_number_X8_in rfl hdX8_in ⟨Nat.le_of_ble_eq_true rfl, Nat.le_of_ble_eq_true rfl⟩ (Nat.le_of_ble_eq_true rfl) rfl ⟨Nat.le_of_ble_eq_true rfl, Nat.le_of_ble_eq_true rfl⟩ rfl rfl dX8_number_73 (fun r5 s5 hp hn5 => ?_)
    obtain ⟨rfl, hs⟩ := hp
    have hs := hs.symm
    subst hs
    refine r_if_eq G (tgt := 110) dX8_number_76 (by decide) (fun c => ?_) (fun c => ?_)
    · rw [if_pos c] at h
      exact hk0 _ _ h
    · rw [if_neg c] at h
      refine r_bipush G (v := 10) (by decide) dX8_number_79 ?_
      refine r_iload_n G 3 rfl rfl dX8_number_81 ?_
      refine r_imul G dX8_number_82 ?_
      refine r_aload_n G 0 rfl rfl dX8_number_83 ?_
      obtain ⟨o6, e6, h⟩ := ob h
      refine r_callVi G [] (qX8_sign hE _ e6) ⟨67, 8, _, _, rfl, (mw_MO bd κ _), rfl⟩ gX8_number_X8_sign rfl hdX8_sign ⟨Nat.le_of_ble_eq_true rfl, Nat.le_of_ble_eq_true rfl⟩ (Nat.le_of_ble_eq_true rfl) rfl ⟨Nat.le_of_ble_eq_true rfl, Nat.le_of_ble_eq_true rfl⟩ rfl rfl dX8_number_84 (fun r6 s6 hp hn6 => ?_)
      subst hp
      try dsimp only at h
      refine r_iadd G dX8_number_87 ?_
      refine r_bipush G (v := 48) (by decide) dX8_number_88 ?_
      refine r_isub G dX8_number_90 ?_
      refine r_bipush G (v := 51) (by decide) dX8_number_91 ?_
      refine r_callSi G [.int (((10 * x3) + r6) - 48), .int 51] (qJ9_min_7cf53 hE (((10 * x3) + r6) - 48) (51 : Int32) _) gX8_number_J9_min_7cf53 rfl hdJ9_min_7cf53 ⟨Nat.le_of_ble_eq_true rfl, Nat.le_of_ble_eq_true rfl⟩ (Nat.le_of_ble_eq_true rfl) rfl ⟨Nat.le_of_ble_eq_true rfl, Nat.le_of_ble_eq_true rfl⟩ rfl rfl dX8_number_93 (fun r7 s7 hp hn7 => ?_)
      obtain ⟨rfl, hs⟩ := hp
      have hs := hs.symm
      subst hs
      refine r_istore_n G [1, 2, 3, 0] rfl rfl (by decide) dX8_number_96 ?_
      refine r_aload_n G 0 rfl rfl dX8_number_97 ?_
      refine r_dup G rfl dX8_number_98 ?_
      refine r_get G (C := RX8) (T := TX8) (N := 19) kX8_number_X8 67 (mw_MO bd κ _) rfl 12 (by decide) mX8_number_f170 rfl rfl dX8_number_99 ?_
      refine r_iconst G (v := 1) (by decide) dX8_number_102 ?_
      refine r_iadd G dX8_number_103 ?_
      refine r_put G (C := RX8) (T := TX8) (N := 19) kX8_number_X8 tyX8 tyX8_ok nmX8 67 (mw_MO bd κ _) rfl 12 (by decide) mX8_number_f170 rfl rfl (tyX8_ok 12 (by decide)) rfl rfl (Nat.le_of_ble_eq_true rfl) (mu_at bd κ _ _) dX8_number_104 ?_
      refine r_goto G (tgt := 65) dX8_number_107 (by decide) ?_
      exact ih _ _ h
def fX8_number (s : mS) : Option (Int32 × mS) := (fX8_sign s).bind (fun (r1, s1) => if r1 = 45 then ((fX8_sign (vI s1 5 ((mI s1 5) + 1))).bind (fun (r11, s11) => if (fX8_in r11 (48 : Int32) (57 : Int32) s11) = 0 then ((fX8_fails (1 : Int32) (mI s11 5) s11).bind (fun s15 => some ((0, s15)))) else (fX8_number_L65 (mI s 5) (1 : Int32) (fun y3_13 s13 => if y3_13 ≤ 50 then (some ((-y3_13, s13))) else ((fX8_fails (2 : Int32) (mI s 5) s13).bind (fun s14 => some ((-y3_13, s14))))) 1100 (0 : Int32) s11))) else ((fX8_sign (vI s1 5 ((mI s1 5) + 0))).bind (fun (r2, s2) => if (fX8_in r2 (48 : Int32) (57 : Int32) s2) = 0 then ((fX8_fails (1 : Int32) (mI s2 5) s2).bind (fun s10 => some ((0, s10)))) else (fX8_number_L65 (mI s 5) (0 : Int32) (fun y3_8 s8 => if y3_8 ≤ 50 then (some ((y3_8, s8))) else ((fX8_fails (2 : Int32) (mI s 5) s8).bind (fun s9 => some ((y3_8, s9))))) 1100 (0 : Int32) s2))))
set_option maxHeartbeats 4000000 in
set_option maxRecDepth 100000 in
theorem qX8_number {E : evT} {l : Launch} {D : va_G} {bd : Nat → Nat} {κ : Nat → ClassId} (hE : EvOk E) (s : mS) {o : (Int32 × mS)} (h : fX8_number s = some o) : Ci l yX8_number wsX8_number rmX8_number (mW bd κ) E D (tyA κ) .int [.ref (bd 67)] s (fun r s2 => o = (r, s2)) := by
  rw [fX8_number] at h
  refine s_i (cc := cX8_number) (nL := 4) (own := RX8) hE (mW_WA bd κ) (plainFor_of_name (by decide)) rfl rfl (Nat.le_of_ble_eq_true rfl) (fun Γ G hret => ?_)
  refine r_aload_n G 0 rfl rfl dX8_number_0 ?_
  refine r_get G (C := RX8) (T := TX8) (N := 19) kX8_number_X8 67 (mw_MO bd κ _) rfl 12 (by decide) mX8_number_f170 rfl rfl dX8_number_1 ?_
  refine r_istore_n G [1, 0] rfl rfl (by decide) dX8_number_4 ?_
  refine r_aload_n G 0 rfl rfl dX8_number_5 ?_
  obtain ⟨o1, e1, h⟩ := ob h
  refine r_callVi G [] (qX8_sign hE _ e1) ⟨67, 8, _, _, rfl, (mw_MO bd κ _), rfl⟩ gX8_number_X8_sign rfl hdX8_sign ⟨Nat.le_of_ble_eq_true rfl, Nat.le_of_ble_eq_true rfl⟩ (Nat.le_of_ble_eq_true rfl) rfl ⟨Nat.le_of_ble_eq_true rfl, Nat.le_of_ble_eq_true rfl⟩ rfl rfl dX8_number_6 (fun r1 s1 hp hn1 => ?_)
  subst hp
  try dsimp only at h
  refine r_bipush G (v := 45) (by decide) dX8_number_9 ?_
  refine r_icmp_ne G (tgt := 18) dX8_number_11 (by decide) (fun c => ?_) (fun c => ?_)
  · rw [if_neg c] at h
    refine r_iconst G (v := 0) (by decide) dX8_number_18 ?_
    refine r_istore_n G [1, 2, 0] rfl rfl (by decide) dX8_number_19 ?_
    refine r_aload_n G 0 rfl rfl dX8_number_20 ?_
    refine r_dup G rfl dX8_number_21 ?_
    refine r_get G (C := RX8) (T := TX8) (N := 19) kX8_number_X8 67 (mw_MO bd κ _) rfl 12 (by decide) mX8_number_f170 rfl rfl dX8_number_22 ?_
    refine r_iload_n G 2 rfl rfl dX8_number_25 ?_
    refine r_if_eq G (tgt := 33) dX8_number_26 (by decide) (fun _ => ?_) (fun c => absurd (by decide) c)
    refine r_iconst G (v := 0) (by decide) dX8_number_33 ?_
    refine r_iadd G dX8_number_34 ?_
    refine r_put G (C := RX8) (T := TX8) (N := 19) kX8_number_X8 tyX8 tyX8_ok nmX8 67 (mw_MO bd κ _) rfl 12 (by decide) mX8_number_f170 rfl rfl (tyX8_ok 12 (by decide)) rfl rfl (Nat.le_of_ble_eq_true rfl) (mu_at bd κ _ _) dX8_number_35 ?_
    refine r_aload_n G 0 rfl rfl dX8_number_38 ?_
    obtain ⟨o2, e2, h⟩ := ob h
    refine r_callVi G [] (qX8_sign hE _ e2) ⟨67, 8, _, _, rfl, (mw_MO bd κ _), rfl⟩ gX8_number_X8_sign rfl hdX8_sign ⟨Nat.le_of_ble_eq_true rfl, Nat.le_of_ble_eq_true rfl⟩ (Nat.le_of_ble_eq_true rfl) rfl ⟨Nat.le_of_ble_eq_true rfl, Nat.le_of_ble_eq_true rfl⟩ rfl rfl dX8_number_39 (fun r2 s2 hp hn2 => ?_)
    subst hp
    try dsimp only at h
    refine r_bipush G (v := 48) (by decide) dX8_number_42 ?_
    refine r_bipush G (v := 57) (by decide) dX8_number_44 ?_
    refine r_callSi G [.int r2, .int 48, .int 57] (qX8_in hE r2 (48 : Int32) (57 : Int32) _) gX8_number_X8_in rfl hdX8_in ⟨Nat.le_of_ble_eq_true rfl, Nat.le_of_ble_eq_true rfl⟩ (Nat.le_of_ble_eq_true rfl) rfl ⟨Nat.le_of_ble_eq_true rfl, Nat.le_of_ble_eq_true rfl⟩ rfl rfl dX8_number_46 (fun r3 s3 hp hn3 => ?_)
    obtain ⟨rfl, hs⟩ := hp
    have hs := hs.symm
    subst hs
    refine r_if_ne G (tgt := 63) dX8_number_49 (by decide) (fun c => ?_) (fun c => ?_)
    · rw [if_neg c] at h
      refine r_iconst G (v := 0) (by decide) dX8_number_63 ?_
      refine r_istore_n G [1, 2, 3, 0] rfl rfl (by decide) dX8_number_64 ?_
      refine wX8_number_L65 hE G _ _ hret (fun y3_8 s8 h => ?_) 1100 _ _ h
      · try dsimp only at h
        refine r_iload_n G 3 rfl rfl dX8_number_110 ?_
        refine r_bipush G (v := 50) (by decide) dX8_number_111 ?_
        refine r_icmp_le G (tgt := 122) dX8_number_113 (by decide) (fun c => ?_) (fun c => ?_)
        · rw [if_pos c] at h
          refine r_iload_n G 2 rfl rfl dX8_number_122 ?_
          refine r_if_eq G (tgt := 131) dX8_number_123 (by decide) (fun _ => ?_) (fun c => absurd (by decide) c)
          refine r_iload_n G 3 rfl rfl dX8_number_131 ?_
          exact hret _ _ _ _ _ _ dX8_number_132 (Option.some.inj h).symm rfl (Nat.le_of_ble_eq_true rfl) (Nat.le_of_ble_eq_true rfl)
        · rw [if_neg c] at h
          refine r_aload_n G 0 rfl rfl dX8_number_116 ?_
          refine r_iconst G (v := 2) (by decide) dX8_number_117 ?_
          refine r_iload_n G 1 rfl rfl dX8_number_118 ?_
          obtain ⟨o9, e9, h⟩ := ob h
          refine r_callVv G [.int 2, .int (mI s 5)] (qX8_fails hE (2 : Int32) (mI s 5) _ e9) ⟨67, 8, _, _, rfl, (mw_MO bd κ _), rfl⟩ gX8_number_X8_fails rfl hdX8_fails ⟨Nat.le_of_ble_eq_true rfl, Nat.le_of_ble_eq_true rfl⟩ (Nat.le_of_ble_eq_true rfl) rfl ⟨Nat.le_of_ble_eq_true rfl, Nat.le_of_ble_eq_true rfl⟩ rfl rfl dX8_number_119 (fun s9 hp => ?_)
          have hp := hp.symm
          subst hp
          try dsimp only at h
          refine r_iload_n G 2 rfl rfl dX8_number_122 ?_
          refine r_if_eq G (tgt := 131) dX8_number_123 (by decide) (fun _ => ?_) (fun c => absurd (by decide) c)
          refine r_iload_n G 3 rfl rfl dX8_number_131 ?_
          exact hret _ _ _ _ _ _ dX8_number_132 (Option.some.inj h).symm rfl (Nat.le_of_ble_eq_true rfl) (Nat.le_of_ble_eq_true rfl)
    · rw [if_pos c] at h
      refine r_aload_n G 0 rfl rfl dX8_number_52 ?_
      refine r_iconst G (v := 1) (by decide) dX8_number_53 ?_
      refine r_aload_n G 0 rfl rfl dX8_number_54 ?_
      refine r_get G (C := RX8) (T := TX8) (N := 19) kX8_number_X8 67 (mw_MO bd κ _) rfl 12 (by decide) mX8_number_f170 rfl rfl dX8_number_55 ?_
      obtain ⟨o10, e10, h⟩ := ob h
      refine r_callVv G [.int 1, .int (mI s2 5)] (qX8_fails hE (1 : Int32) (mI s2 5) _ e10) ⟨67, 8, _, _, rfl, (mw_MO bd κ _), rfl⟩ gX8_number_X8_fails rfl hdX8_fails ⟨Nat.le_of_ble_eq_true rfl, Nat.le_of_ble_eq_true rfl⟩ (Nat.le_of_ble_eq_true rfl) rfl ⟨Nat.le_of_ble_eq_true rfl, Nat.le_of_ble_eq_true rfl⟩ rfl rfl dX8_number_58 (fun s10 hp => ?_)
      have hp := hp.symm
      subst hp
      try dsimp only at h
      refine r_iconst G (v := 0) (by decide) dX8_number_61 ?_
      exact hret _ _ _ _ _ _ dX8_number_62 (Option.some.inj h).symm rfl (Nat.le_of_ble_eq_true rfl) (Nat.le_of_ble_eq_true rfl)
  · rw [if_pos c] at h
    refine r_iconst G (v := 1) (by decide) dX8_number_14 ?_
    refine r_goto G (tgt := 19) dX8_number_15 (by decide) ?_
    refine r_istore_n G [1, 2, 0] rfl rfl (by decide) dX8_number_19 ?_
    refine r_aload_n G 0 rfl rfl dX8_number_20 ?_
    refine r_dup G rfl dX8_number_21 ?_
    refine r_get G (C := RX8) (T := TX8) (N := 19) kX8_number_X8 67 (mw_MO bd κ _) rfl 12 (by decide) mX8_number_f170 rfl rfl dX8_number_22 ?_
    refine r_iload_n G 2 rfl rfl dX8_number_25 ?_
    refine r_if_eq G (tgt := 33) dX8_number_26 (by decide) (fun c => absurd c (by decide)) (fun _ => ?_)
    refine r_iconst G (v := 1) (by decide) dX8_number_29 ?_
    refine r_goto G (tgt := 34) dX8_number_30 (by decide) ?_
    refine r_iadd G dX8_number_34 ?_
    refine r_put G (C := RX8) (T := TX8) (N := 19) kX8_number_X8 tyX8 tyX8_ok nmX8 67 (mw_MO bd κ _) rfl 12 (by decide) mX8_number_f170 rfl rfl (tyX8_ok 12 (by decide)) rfl rfl (Nat.le_of_ble_eq_true rfl) (mu_at bd κ _ _) dX8_number_35 ?_
    refine r_aload_n G 0 rfl rfl dX8_number_38 ?_
    obtain ⟨o11, e11, h⟩ := ob h
    refine r_callVi G [] (qX8_sign hE _ e11) ⟨67, 8, _, _, rfl, (mw_MO bd κ _), rfl⟩ gX8_number_X8_sign rfl hdX8_sign ⟨Nat.le_of_ble_eq_true rfl, Nat.le_of_ble_eq_true rfl⟩ (Nat.le_of_ble_eq_true rfl) rfl ⟨Nat.le_of_ble_eq_true rfl, Nat.le_of_ble_eq_true rfl⟩ rfl rfl dX8_number_39 (fun r11 s11 hp hn11 => ?_)
    subst hp
    try dsimp only at h
    refine r_bipush G (v := 48) (by decide) dX8_number_42 ?_
    refine r_bipush G (v := 57) (by decide) dX8_number_44 ?_
    refine r_callSi G [.int r11, .int 48, .int 57] (qX8_in hE r11 (48 : Int32) (57 : Int32) _) gX8_number_X8_in rfl hdX8_in ⟨Nat.le_of_ble_eq_true rfl, Nat.le_of_ble_eq_true rfl⟩ (Nat.le_of_ble_eq_true rfl) rfl ⟨Nat.le_of_ble_eq_true rfl, Nat.le_of_ble_eq_true rfl⟩ rfl rfl dX8_number_46 (fun r12 s12 hp hn12 => ?_)
    obtain ⟨rfl, hs⟩ := hp
    have hs := hs.symm
    subst hs
    refine r_if_ne G (tgt := 63) dX8_number_49 (by decide) (fun c => ?_) (fun c => ?_)
    · rw [if_neg c] at h
      refine r_iconst G (v := 0) (by decide) dX8_number_63 ?_
      refine r_istore_n G [1, 2, 3, 0] rfl rfl (by decide) dX8_number_64 ?_
      refine wX8_number_L65 hE G _ _ hret (fun y3_13 s13 h => ?_) 1100 _ _ h
      · try dsimp only at h
        refine r_iload_n G 3 rfl rfl dX8_number_110 ?_
        refine r_bipush G (v := 50) (by decide) dX8_number_111 ?_
        refine r_icmp_le G (tgt := 122) dX8_number_113 (by decide) (fun c => ?_) (fun c => ?_)
        · rw [if_pos c] at h
          refine r_iload_n G 2 rfl rfl dX8_number_122 ?_
          refine r_if_eq G (tgt := 131) dX8_number_123 (by decide) (fun c => absurd c (by decide)) (fun _ => ?_)
          refine r_iload_n G 3 rfl rfl dX8_number_126 ?_
          refine r_ineg G dX8_number_127 ?_
          refine r_goto G (tgt := 132) dX8_number_128 (by decide) ?_
          exact hret _ _ _ _ _ _ dX8_number_132 (Option.some.inj h).symm rfl (Nat.le_of_ble_eq_true rfl) (Nat.le_of_ble_eq_true rfl)
        · rw [if_neg c] at h
          refine r_aload_n G 0 rfl rfl dX8_number_116 ?_
          refine r_iconst G (v := 2) (by decide) dX8_number_117 ?_
          refine r_iload_n G 1 rfl rfl dX8_number_118 ?_
          obtain ⟨o14, e14, h⟩ := ob h
          refine r_callVv G [.int 2, .int (mI s 5)] (qX8_fails hE (2 : Int32) (mI s 5) _ e14) ⟨67, 8, _, _, rfl, (mw_MO bd κ _), rfl⟩ gX8_number_X8_fails rfl hdX8_fails ⟨Nat.le_of_ble_eq_true rfl, Nat.le_of_ble_eq_true rfl⟩ (Nat.le_of_ble_eq_true rfl) rfl ⟨Nat.le_of_ble_eq_true rfl, Nat.le_of_ble_eq_true rfl⟩ rfl rfl dX8_number_119 (fun s14 hp => ?_)
          have hp := hp.symm
          subst hp
          try dsimp only at h
          refine r_iload_n G 2 rfl rfl dX8_number_122 ?_
          refine r_if_eq G (tgt := 131) dX8_number_123 (by decide) (fun c => absurd c (by decide)) (fun _ => ?_)
          refine r_iload_n G 3 rfl rfl dX8_number_126 ?_
          refine r_ineg G dX8_number_127 ?_
          refine r_goto G (tgt := 132) dX8_number_128 (by decide) ?_
          exact hret _ _ _ _ _ _ dX8_number_132 (Option.some.inj h).symm rfl (Nat.le_of_ble_eq_true rfl) (Nat.le_of_ble_eq_true rfl)
    · rw [if_pos c] at h
      refine r_aload_n G 0 rfl rfl dX8_number_52 ?_
      refine r_iconst G (v := 1) (by decide) dX8_number_53 ?_
      refine r_aload_n G 0 rfl rfl dX8_number_54 ?_
      refine r_get G (C := RX8) (T := TX8) (N := 19) kX8_number_X8 67 (mw_MO bd κ _) rfl 12 (by decide) mX8_number_f170 rfl rfl dX8_number_55 ?_
      obtain ⟨o15, e15, h⟩ := ob h
      refine r_callVv G [.int 1, .int (mI s11 5)] (qX8_fails hE (1 : Int32) (mI s11 5) _ e15) ⟨67, 8, _, _, rfl, (mw_MO bd κ _), rfl⟩ gX8_number_X8_fails rfl hdX8_fails ⟨Nat.le_of_ble_eq_true rfl, Nat.le_of_ble_eq_true rfl⟩ (Nat.le_of_ble_eq_true rfl) rfl ⟨Nat.le_of_ble_eq_true rfl, Nat.le_of_ble_eq_true rfl⟩ rfl rfl dX8_number_58 (fun s15 hp => ?_)
      have hp := hp.symm
      subst hp
      try dsimp only at h
      refine r_iconst G (v := 0) (by decide) dX8_number_61 ?_
      exact hret _ _ _ _ _ _ dX8_number_62 (Option.some.inj h).symm rfl (Nat.le_of_ble_eq_true rfl) (Nat.le_of_ble_eq_true rfl)
abbrev rmX8_item : Room := { frames := 2, cells := 0, slots := 0, locals := 45 }
theorem hdX8_number : yX8_number.cls = RX8 ∧ yX8_number.cls ≠ "java/lang/invoke/MethodHandle" ∧ yX8_number.cls ≠ "java/lang/invoke/VarHandle" ∧ (parseMethodDescriptor yX8_number.desc).map (fun d => d.parameters.length) = some 0 := by decide +kernel
set_option maxRecDepth 20000 in
theorem kX8_item_X8 : ∀ w ∈ u_ws RX8 TX8 19, w ∈ wsX8_item := by decide +kernel
set_option maxRecDepth 20000 in
theorem mX8_item_f164 : Cond.fieldLink RX8 164 "SetCouncilModel" "errorKind" "I" ∈ wsX8_item := by decide +kernel
def fX8_item_L125 (z1 : Nat) (x3 : Int32) : Nat → Int32 → mS → Option (mS)
  | 0, _, _ => none
  | fuel + 1, x4, s => if (mI s 7) = 0 then (if x3 < x4 then (some (s)) else (if vin (fX8_placeOfMember x4 s) 102 = true then (fX8_item_L125 z1 x3 fuel (x4 + 1) (vR s z1 ((fX8_placeOfMember x4 s).toNatClampNeg) (vp_nar .boolean 1))) else none)) else (some (s))
set_option maxHeartbeats 4000000 in
set_option maxRecDepth 100000 in
theorem wX8_item_L125 {E : evT} {l : Launch} {D : va_G} {bd : Nat → Nat} {κ : Nat → ClassId} (hE : EvOk E) {Γ : cxT} (G : Cx (mW bd κ) D (tyA κ) E l Γ cX8_item RX8 wsX8_item 6 rmX8_item) (z1 : Nat) (hz1 : z1 < 67) (x3 : Int32) {o : (mS)} (hret : ∀ (st2 : mS) (cells slots pc : Nat) (lv : List (Nat × Value)), decode cX8_item pc = .ok (.return_, 1) → o = st2 → cells ≤ rmX8_item.cells → slots ≤ rmX8_item.slots → V (mW bd κ) D Γ st2 cells slots pc lv []) : ∀ (fuel : Nat) (x4 : Int32) (s : mS), fX8_item_L125 z1 x3 fuel x4 s = some o → V (mW bd κ) D Γ s 0 0 125 [(0, .ref (bd 67)), (1, .ref (bd z1)), (3, .int x3), (4, .int x4)] [] := by
  intro fuel
  induction fuel with
  | zero =>
    intro _ _ h
    have h : none = some o := h
    cases h
  | succ fuel ih =>
    intro x4 s h
    rw [fX8_item_L125] at h
    refine r_aload_n G 0 rfl rfl dX8_item_125 ?_
    refine r_get G (C := RX8) (T := TX8) (N := 19) kX8_item_X8 67 (mw_MO bd κ _) rfl 14 (by decide) mX8_item_f164 rfl rfl dX8_item_126 ?_
    refine r_if_ne G (tgt := 152) dX8_item_129 (by decide) (fun c => ?_) (fun c => ?_)
    · rw [if_neg c] at h
      exact hret _ _ _ _ _ dX8_item_152 (Option.some.inj h).symm (Nat.le_of_ble_eq_true rfl) (Nat.le_of_ble_eq_true rfl)
    · rw [if_pos c] at h
      refine r_iload G 3 rfl dX8_item_132 ?_
      refine r_iload_n G 2 rfl rfl dX8_item_134 ?_
      refine r_icmp_gt G (tgt := 152) dX8_item_135 (by decide) (fun c => ?_) (fun c => ?_)
      · rw [if_pos c] at h
        exact hret _ _ _ _ _ dX8_item_152 (Option.some.inj h).symm (Nat.le_of_ble_eq_true rfl) (Nat.le_of_ble_eq_true rfl)
      · rw [if_neg c] at h
        refine r_aload_n G 1 rfl rfl dX8_item_138 ?_
        refine r_iload G 3 rfl dX8_item_139 ?_
        refine r_callSi G [.int x4] (qX8_placeOfMember hE x4 _) gX8_item_X8_placeOfMember rfl hdX8_placeOfMember ⟨Nat.le_of_ble_eq_true rfl, Nat.le_of_ble_eq_true rfl⟩ (Nat.le_of_ble_eq_true rfl) rfl ⟨Nat.le_of_ble_eq_true rfl, Nat.le_of_ble_eq_true rfl⟩ rfl rfl dX8_item_141 (fun r3 s3 hp hn3 => ?_)
        obtain ⟨rfl, hs⟩ := hp
        have hs := hs.symm
        subst hs
        refine r_iconst G (v := 1) (by decide) dX8_item_144 ?_
        obtain ⟨g4, h⟩ := og h
        refine r_zast G z1 4 (mw_ROW bd κ _ hz1) rfl (vin_in g4) (mu_ROW bd κ _ hz1 _ _) dX8_item_145 ?_
        refine r_iinc G (j := 3) rfl (v := x4 + 1) rfl [1, 2, 3, 0] rfl (by decide) dX8_item_146 ?_
        refine r_goto G (tgt := 125) dX8_item_149 (by decide) ?_
        exact ih _ _ h
set_option maxRecDepth 20000 in
theorem mX8_item_f170 : Cond.fieldLink RX8 170 "SetCouncilModel" "at" "I" ∈ wsX8_item := by decide +kernel
def fX8_item (p0 : Nat) (s : mS) : Option (mS) := (fX8_signBehindBlanks s).bind (fun (r1, s1) => if r1 = 35 then (if vin 0 102 = true then (some (vI (vR s1 p0 ((0 : Int32).toNatClampNeg) (vp_nar .boolean 1)) 5 ((mI (vR s1 p0 ((0 : Int32).toNatClampNeg) (vp_nar .boolean 1)) 5) + 1))) else none) else ((fX8_number s1).bind (fun (r2, s2) => if (mI s2 7) = 0 then ((fX8_signBehindBlanks s2).bind (fun (r5, s5) => if r5 = 46 then ((fX8_sign (vI s5 5 ((mI s5 5) + 1))).bind (fun (r6, s6) => if r6 = 46 then ((fX8_signBehindBlanks (vI s6 5 ((mI s6 5) + 1))).bind (fun (r7, s7) => (fX8_number s7).bind (fun (r8, s8) => if (mI s8 7) = 0 then (if r2 ≤ r8 then (fX8_item_L125 p0 r8 1100 r2 s8) else ((fX8_fails (2 : Int32) (mI s7 5) s8).bind (fun s9 => fX8_item_L125 p0 r8 1100 r2 s9))) else (fX8_item_L125 p0 r8 1100 r2 s8)))) else ((fX8_fails (1 : Int32) (mI s6 5) s6).bind (fun s10 => some (s10))))) else (fX8_item_L125 p0 r2 1100 r2 s5))) else (fX8_item_L125 p0 r2 1100 r2 s2))))
set_option maxHeartbeats 4000000 in
set_option maxRecDepth 100000 in
theorem qX8_item {E : evT} {l : Launch} {D : va_G} {bd : Nat → Nat} {κ : Nat → ClassId} (hE : EvOk E) (p0 : Nat) (hp0 : p0 < 67) (s : mS) {o : (mS)} (h : fX8_item p0 s = some o) : Cv l yX8_item wsX8_item rmX8_item (mW bd κ) E D (tyA κ)  [.ref (bd 67), .ref (bd p0)] s (fun s2 => o = s2) := by
  rw [fX8_item] at h
  refine s_v (cc := cX8_item) (nL := 6) (own := RX8) hE (mW_WA bd κ) (by decide) rfl rfl (Nat.le_of_ble_eq_true rfl) (fun Γ G hret => ?_)
  refine r_aload_n G 0 rfl rfl dX8_item_0 ?_
  obtain ⟨o1, e1, h⟩ := ob h
  refine r_callVi G [] (qX8_signBehindBlanks hE _ e1) ⟨67, 8, _, _, rfl, (mw_MO bd κ _), rfl⟩ gX8_item_X8_signBehindBlanks rfl hdX8_signBehindBlanks ⟨Nat.le_of_ble_eq_true rfl, Nat.le_of_ble_eq_true rfl⟩ (Nat.le_of_ble_eq_true rfl) rfl ⟨Nat.le_of_ble_eq_true rfl, Nat.le_of_ble_eq_true rfl⟩ rfl rfl dX8_item_1 (fun r1 s1 hp hn1 => ?_)
  subst hp
  try dsimp only at h
  refine r_bipush G (v := 35) (by decide) dX8_item_4 ?_
  refine r_icmp_ne G (tgt := 24) dX8_item_6 (by decide) (fun c => ?_) (fun c => ?_)
  · rw [if_neg c] at h
    refine r_aload_n G 0 rfl rfl dX8_item_24 ?_
    obtain ⟨o2, e2, h⟩ := ob h
    refine r_callVi G [] (qX8_number hE _ e2) ⟨67, 8, _, _, rfl, (mw_MO bd κ _), rfl⟩ gX8_item_X8_number rfl hdX8_number ⟨Nat.le_of_ble_eq_true rfl, Nat.le_of_ble_eq_true rfl⟩ (Nat.le_of_ble_eq_true rfl) rfl ⟨Nat.le_of_ble_eq_true rfl, Nat.le_of_ble_eq_true rfl⟩ rfl rfl dX8_item_25 (fun r2 s2 hp hn2 => ?_)
    subst hp
    try dsimp only at h
    refine r_istore_n G [1, 2, 0] rfl rfl (by decide) dX8_item_28 ?_
    refine r_iload_n G 2 rfl rfl dX8_item_29 ?_
    refine r_istore_n G [1, 2, 3, 0] rfl rfl (by decide) dX8_item_30 ?_
    refine r_aload_n G 0 rfl rfl dX8_item_31 ?_
    refine r_get G (C := RX8) (T := TX8) (N := 19) kX8_item_X8 67 (mw_MO bd κ _) rfl 14 (by decide) mX8_item_f164 rfl rfl dX8_item_32 ?_
    refine r_if_ne G (tgt := 122) dX8_item_35 (by decide) (fun c => ?_) (fun c => ?_)
    · rw [if_neg c] at h
      refine r_iload_n G 2 rfl rfl dX8_item_122 ?_
      refine r_istore G [1, 2, 4, 0] rfl (by decide) dX8_item_123 ?_
      refine wX8_item_L125 hE G _ hp0 _ hret 1100 _ _ h
    · rw [if_pos c] at h
      refine r_aload_n G 0 rfl rfl dX8_item_38 ?_
      obtain ⟨o5, e5, h⟩ := ob h
      refine r_callVi G [] (qX8_signBehindBlanks hE _ e5) ⟨67, 8, _, _, rfl, (mw_MO bd κ _), rfl⟩ gX8_item_X8_signBehindBlanks rfl hdX8_signBehindBlanks ⟨Nat.le_of_ble_eq_true rfl, Nat.le_of_ble_eq_true rfl⟩ (Nat.le_of_ble_eq_true rfl) rfl ⟨Nat.le_of_ble_eq_true rfl, Nat.le_of_ble_eq_true rfl⟩ rfl rfl dX8_item_39 (fun r5 s5 hp hn5 => ?_)
      subst hp
      try dsimp only at h
      refine r_bipush G (v := 46) (by decide) dX8_item_42 ?_
      refine r_icmp_ne G (tgt := 122) dX8_item_44 (by decide) (fun c => ?_) (fun c => ?_)
      · rw [if_neg c] at h
        refine r_iload_n G 2 rfl rfl dX8_item_122 ?_
        refine r_istore G [1, 2, 4, 0] rfl (by decide) dX8_item_123 ?_
        refine wX8_item_L125 hE G _ hp0 _ hret 1100 _ _ h
      · rw [if_pos c] at h
        refine r_aload_n G 0 rfl rfl dX8_item_47 ?_
        refine r_dup G rfl dX8_item_48 ?_
        refine r_get G (C := RX8) (T := TX8) (N := 19) kX8_item_X8 67 (mw_MO bd κ _) rfl 12 (by decide) mX8_item_f170 rfl rfl dX8_item_49 ?_
        refine r_iconst G (v := 1) (by decide) dX8_item_52 ?_
        refine r_iadd G dX8_item_53 ?_
        refine r_put G (C := RX8) (T := TX8) (N := 19) kX8_item_X8 tyX8 tyX8_ok nmX8 67 (mw_MO bd κ _) rfl 12 (by decide) mX8_item_f170 rfl rfl (tyX8_ok 12 (by decide)) rfl rfl (Nat.le_of_ble_eq_true rfl) (mu_at bd κ _ _) dX8_item_54 ?_
        refine r_aload_n G 0 rfl rfl dX8_item_57 ?_
        obtain ⟨o6, e6, h⟩ := ob h
        refine r_callVi G [] (qX8_sign hE _ e6) ⟨67, 8, _, _, rfl, (mw_MO bd κ _), rfl⟩ gX8_item_X8_sign rfl hdX8_sign ⟨Nat.le_of_ble_eq_true rfl, Nat.le_of_ble_eq_true rfl⟩ (Nat.le_of_ble_eq_true rfl) rfl ⟨Nat.le_of_ble_eq_true rfl, Nat.le_of_ble_eq_true rfl⟩ rfl rfl dX8_item_58 (fun r6 s6 hp hn6 => ?_)
        subst hp
        try dsimp only at h
        refine r_bipush G (v := 46) (by decide) dX8_item_61 ?_
        refine r_icmp_eq G (tgt := 76) dX8_item_63 (by decide) (fun c => ?_) (fun c => ?_)
        · rw [if_pos c] at h
          refine r_aload_n G 0 rfl rfl dX8_item_76 ?_
          refine r_dup G rfl dX8_item_77 ?_
          refine r_get G (C := RX8) (T := TX8) (N := 19) kX8_item_X8 67 (mw_MO bd κ _) rfl 12 (by decide) mX8_item_f170 rfl rfl dX8_item_78 ?_
          refine r_iconst G (v := 1) (by decide) dX8_item_81 ?_
          refine r_iadd G dX8_item_82 ?_
          refine r_put G (C := RX8) (T := TX8) (N := 19) kX8_item_X8 tyX8 tyX8_ok nmX8 67 (mw_MO bd κ _) rfl 12 (by decide) mX8_item_f170 rfl rfl (tyX8_ok 12 (by decide)) rfl rfl (Nat.le_of_ble_eq_true rfl) (mu_at bd κ _ _) dX8_item_83 ?_
          refine r_aload_n G 0 rfl rfl dX8_item_86 ?_
          obtain ⟨o7, e7, h⟩ := ob h
          refine r_callVi G [] (qX8_signBehindBlanks hE _ e7) ⟨67, 8, _, _, rfl, (mw_MO bd κ _), rfl⟩ gX8_item_X8_signBehindBlanks rfl hdX8_signBehindBlanks ⟨Nat.le_of_ble_eq_true rfl, Nat.le_of_ble_eq_true rfl⟩ (Nat.le_of_ble_eq_true rfl) rfl ⟨Nat.le_of_ble_eq_true rfl, Nat.le_of_ble_eq_true rfl⟩ rfl rfl dX8_item_87 (fun r7 s7 hp hn7 => ?_)
          subst hp
          try dsimp only at h
          refine r_istore G [1, 2, 3] rfl (by decide) dX8_item_90 ?_
          refine r_aload_n G 0 rfl rfl dX8_item_92 ?_
          refine r_get G (C := RX8) (T := TX8) (N := 19) kX8_item_X8 67 (mw_MO bd κ _) rfl 12 (by decide) mX8_item_f170 rfl rfl dX8_item_93 ?_
          refine r_istore G [1, 2, 3, 0] rfl (by decide) dX8_item_96 ?_
          refine r_aload_n G 0 rfl rfl dX8_item_98 ?_
          obtain ⟨o8, e8, h⟩ := ob h
          refine r_callVi G [] (qX8_number hE _ e8) ⟨67, 8, _, _, rfl, (mw_MO bd κ _), rfl⟩ gX8_item_X8_number rfl hdX8_number ⟨Nat.le_of_ble_eq_true rfl, Nat.le_of_ble_eq_true rfl⟩ (Nat.le_of_ble_eq_true rfl) rfl ⟨Nat.le_of_ble_eq_true rfl, Nat.le_of_ble_eq_true rfl⟩ rfl rfl dX8_item_99 (fun r8 s8 hp hn8 => ?_)
          subst hp
          try dsimp only at h
          refine r_istore_n G [1, 2, 3, 0, 4] rfl rfl (by decide) dX8_item_102 ?_
          refine r_aload_n G 0 rfl rfl dX8_item_103 ?_
          refine r_get G (C := RX8) (T := TX8) (N := 19) kX8_item_X8 67 (mw_MO bd κ _) rfl 14 (by decide) mX8_item_f164 rfl rfl dX8_item_104 ?_
          refine r_if_ne G (tgt := 122) dX8_item_107 (by decide) (fun c => ?_) (fun c => ?_)
          · rw [if_neg c] at h
            refine r_iload_n G 2 rfl rfl dX8_item_122 ?_
            refine r_istore G [1, 2, 4, 0] rfl (by decide) dX8_item_123 ?_
            refine wX8_item_L125 hE G _ hp0 _ hret 1100 _ _ h
          · rw [if_pos c] at h
            refine r_iload_n G 3 rfl rfl dX8_item_110 ?_
            refine r_iload_n G 2 rfl rfl dX8_item_111 ?_
            refine r_icmp_ge G (tgt := 122) dX8_item_112 (by decide) (fun c => ?_) (fun c => ?_)
            · rw [if_pos c] at h
              refine r_iload_n G 2 rfl rfl dX8_item_122 ?_
              refine r_istore G [1, 2, 4, 0] rfl (by decide) dX8_item_123 ?_
              refine wX8_item_L125 hE G _ hp0 _ hret 1100 _ _ h
            · rw [if_neg c] at h
              refine r_aload_n G 0 rfl rfl dX8_item_115 ?_
              refine r_iconst G (v := 2) (by decide) dX8_item_116 ?_
              refine r_iload G 4 rfl dX8_item_117 ?_
              obtain ⟨o9, e9, h⟩ := ob h
              refine r_callVv G [.int 2, .int (mI s7 5)] (qX8_fails hE (2 : Int32) (mI s7 5) _ e9) ⟨67, 8, _, _, rfl, (mw_MO bd κ _), rfl⟩ gX8_item_X8_fails rfl hdX8_fails ⟨Nat.le_of_ble_eq_true rfl, Nat.le_of_ble_eq_true rfl⟩ (Nat.le_of_ble_eq_true rfl) rfl ⟨Nat.le_of_ble_eq_true rfl, Nat.le_of_ble_eq_true rfl⟩ rfl rfl dX8_item_119 (fun s9 hp => ?_)
              have hp := hp.symm
              subst hp
              try dsimp only at h
              refine r_iload_n G 2 rfl rfl dX8_item_122 ?_
              refine r_istore G [1, 2, 4, 0] rfl (by decide) dX8_item_123 ?_
              refine wX8_item_L125 hE G _ hp0 _ hret 1100 _ _ h
        · rw [if_neg c] at h
          refine r_aload_n G 0 rfl rfl dX8_item_66 ?_
          refine r_iconst G (v := 1) (by decide) dX8_item_67 ?_
          refine r_aload_n G 0 rfl rfl dX8_item_68 ?_
          refine r_get G (C := RX8) (T := TX8) (N := 19) kX8_item_X8 67 (mw_MO bd κ _) rfl 12 (by decide) mX8_item_f170 rfl rfl dX8_item_69 ?_
          obtain ⟨o10, e10, h⟩ := ob h
          refine r_callVv G [.int 1, .int (mI s6 5)] (qX8_fails hE (1 : Int32) (mI s6 5) _ e10) ⟨67, 8, _, _, rfl, (mw_MO bd κ _), rfl⟩ gX8_item_X8_fails rfl hdX8_fails ⟨Nat.le_of_ble_eq_true rfl, Nat.le_of_ble_eq_true rfl⟩ (Nat.le_of_ble_eq_true rfl) rfl ⟨Nat.le_of_ble_eq_true rfl, Nat.le_of_ble_eq_true rfl⟩ rfl rfl dX8_item_72 (fun s10 hp => ?_)
          have hp := hp.symm
          subst hp
          try dsimp only at h
          exact hret _ _ _ _ _ dX8_item_75 (Option.some.inj h).symm (Nat.le_of_ble_eq_true rfl) (Nat.le_of_ble_eq_true rfl)
  · rw [if_pos c] at h
    refine r_aload_n G 1 rfl rfl dX8_item_9 ?_
    refine r_iconst G (v := 0) (by decide) dX8_item_10 ?_
    refine r_iconst G (v := 1) (by decide) dX8_item_11 ?_
    obtain ⟨g11, h⟩ := og h
    refine r_zast G p0 4 (mw_ROW bd κ _ hp0) rfl (vin_in g11) (mu_ROW bd κ _ hp0 _ _) dX8_item_12 ?_
    refine r_aload_n G 0 rfl rfl dX8_item_13 ?_
    refine r_dup G rfl dX8_item_14 ?_
    refine r_get G (C := RX8) (T := TX8) (N := 19) kX8_item_X8 67 (mw_MO bd κ _) rfl 12 (by decide) mX8_item_f170 rfl rfl dX8_item_15 ?_
    refine r_iconst G (v := 1) (by decide) dX8_item_18 ?_
    refine r_iadd G dX8_item_19 ?_
    refine r_put G (C := RX8) (T := TX8) (N := 19) kX8_item_X8 tyX8 tyX8_ok nmX8 67 (mw_MO bd κ _) rfl 12 (by decide) mX8_item_f170 rfl rfl (tyX8_ok 12 (by decide)) rfl rfl (Nat.le_of_ble_eq_true rfl) (mu_at bd κ _ _) dX8_item_20 ?_
    exact hret _ _ _ _ _ dX8_item_23 (Option.some.inj h).symm (Nat.le_of_ble_eq_true rfl) (Nat.le_of_ble_eq_true rfl)
abbrev rmX8_braces : Room := { frames := 3, cells := 0, slots := 0, locals := 70 }
theorem hdX8_expects : yX8_expects.cls = RX8 ∧ yX8_expects.cls ≠ "java/lang/invoke/MethodHandle" ∧ yX8_expects.cls ≠ "java/lang/invoke/VarHandle" ∧ (parseMethodDescriptor yX8_expects.desc).map (fun d => d.parameters.length) = some 1 := by decide +kernel
theorem hdX8_item : yX8_item.cls = RX8 ∧ yX8_item.cls ≠ "java/lang/invoke/MethodHandle" ∧ yX8_item.cls ≠ "java/lang/invoke/VarHandle" ∧ (parseMethodDescriptor yX8_item.desc).map (fun d => d.parameters.length) = some 1 := by decide +kernel
set_option maxRecDepth 20000 in
theorem kX8_braces_X8 : ∀ w ∈ u_ws RX8 TX8 19, w ∈ wsX8_braces := by decide +kernel
set_option maxRecDepth 20000 in
theorem mX8_braces_f164 : Cond.fieldLink RX8 164 "SetCouncilModel" "errorKind" "I" ∈ wsX8_braces := by decide +kernel
set_option maxRecDepth 20000 in
theorem mX8_braces_f170 : Cond.fieldLink RX8 170 "SetCouncilModel" "at" "I" ∈ wsX8_braces := by decide +kernel
def fX8_braces_L38 (z1 : Nat) (k0 : mS → Option (mS)) : Nat → mS → Option (mS)
  | 0, _ => none
  | fuel + 1, s => if (mI s 7) = 0 then ((fX8_signBehindBlanks s).bind (fun (r5, s5) => if r5 = 44 then ((fX8_item z1 (vI s5 5 ((mI s5 5) + 1))).bind (fun s6 => fX8_braces_L38 z1 k0 fuel s6)) else (k0 s5))) else (k0 s)
set_option maxHeartbeats 4000000 in
set_option maxRecDepth 100000 in
theorem wX8_braces_L38 {E : evT} {l : Launch} {D : va_G} {bd : Nat → Nat} {κ : Nat → ClassId} (hE : EvOk E) {Γ : cxT} (G : Cx (mW bd κ) D (tyA κ) E l Γ cX8_braces RX8 wsX8_braces 2 rmX8_braces) (z1 : Nat) (hz1 : z1 < 67) {o : (mS)} (hret : ∀ (st2 : mS) (cells slots pc : Nat) (lv : List (Nat × Value)), decode cX8_braces pc = .ok (.return_, 1) → o = st2 → cells ≤ rmX8_braces.cells → slots ≤ rmX8_braces.slots → V (mW bd κ) D Γ st2 cells slots pc lv []) {k0 : mS → Option (mS)} (hk0 : ∀ (s : mS), k0 s = some o → V (mW bd κ) D Γ s 0 0 72 [(0, .ref (bd 67))] []) : ∀ (fuel : Nat) (s : mS), fX8_braces_L38 z1 k0 fuel s = some o → V (mW bd κ) D Γ s 0 0 38 [(0, .ref (bd 67)), (1, .ref (bd z1))] [] := by
  intro fuel
  induction fuel with
  | zero =>
    intro _ h
    have h : none = some o := h
    cases h
  | succ fuel ih =>
    intro s h
    rw [fX8_braces_L38] at h
    refine r_aload_n G 0 rfl rfl dX8_braces_38 ?_
    refine r_get G (C := RX8) (T := TX8) (N := 19) kX8_braces_X8 67 (mw_MO bd κ _) rfl 14 (by decide) mX8_braces_f164 rfl rfl dX8_braces_39 ?_
    refine r_if_ne G (tgt := 72) dX8_braces_42 (by decide) (fun c => ?_) (fun c => ?_)
    · rw [if_neg c] at h
      refine V.sub [0] rfl ?_
      exact hk0 _ h
    · rw [if_pos c] at h
      refine r_aload_n G 0 rfl rfl dX8_braces_45 ?_
      obtain ⟨o5, e5, h⟩ := ob h
      refine r_callVi G [] (qX8_signBehindBlanks hE _ e5) ⟨67, 8, _, _, rfl, (mw_MO bd κ _), rfl⟩ gX8_braces_X8_signBehindBlanks rfl hdX8_signBehindBlanks ⟨Nat.le_of_ble_eq_true rfl, Nat.le_of_ble_eq_true rfl⟩ (Nat.le_of_ble_eq_true rfl) rfl ⟨Nat.le_of_ble_eq_true rfl, Nat.le_of_ble_eq_true rfl⟩ rfl rfl dX8_braces_46 (fun r5 s5 hp hn5 => ?_)
      subst hp
      try dsimp only at h
      refine r_bipush G (v := 44) (by decide) dX8_braces_49 ?_
      refine r_icmp_ne G (tgt := 72) dX8_braces_51 (by decide) (fun c => ?_) (fun c => ?_)
      · rw [if_neg c] at h
        refine V.sub [0] rfl ?_
        exact hk0 _ h
      · rw [if_pos c] at h
        refine r_aload_n G 0 rfl rfl dX8_braces_54 ?_
        refine r_dup G rfl dX8_braces_55 ?_
        refine r_get G (C := RX8) (T := TX8) (N := 19) kX8_braces_X8 67 (mw_MO bd κ _) rfl 12 (by decide) mX8_braces_f170 rfl rfl dX8_braces_56 ?_
        refine r_iconst G (v := 1) (by decide) dX8_braces_59 ?_
        refine r_iadd G dX8_braces_60 ?_
        refine r_put G (C := RX8) (T := TX8) (N := 19) kX8_braces_X8 tyX8 tyX8_ok nmX8 67 (mw_MO bd κ _) rfl 12 (by decide) mX8_braces_f170 rfl rfl (tyX8_ok 12 (by decide)) rfl rfl (Nat.le_of_ble_eq_true rfl) (mu_at bd κ _ _) dX8_braces_61 ?_
        refine r_aload_n G 0 rfl rfl dX8_braces_64 ?_
        refine r_aload_n G 1 rfl rfl dX8_braces_65 ?_
        obtain ⟨o6, e6, h⟩ := ob h
        refine r_callVv G [.ref (bd z1)] (qX8_item hE z1 hz1 _ e6) ⟨67, 8, _, _, rfl, (mw_MO bd κ _), rfl⟩ gX8_braces_X8_item rfl hdX8_item ⟨Nat.le_of_ble_eq_true rfl, Nat.le_of_ble_eq_true rfl⟩ (Nat.le_of_ble_eq_true rfl) rfl ⟨Nat.le_of_ble_eq_true rfl, Nat.le_of_ble_eq_true rfl⟩ rfl rfl dX8_braces_66 (fun s6 hp => ?_)
        have hp := hp.symm
        subst hp
        try dsimp only at h
        refine r_goto G (tgt := 38) dX8_braces_69 (by decide) ?_
        exact ih _ h
def fX8_braces (p0 : Nat) (s : mS) : Option (mS) := (fX8_joins p0 p0 (2 : Int32) p0 s).bind (fun s1 => (fX8_expects (123 : Int32) s1).bind (fun s2 => (fX8_signBehindBlanks s2).bind (fun (r3, s3) => if r3 = 125 then (some (vI s3 5 ((mI s3 5) + 1))) else ((fX8_item p0 s3).bind (fun s4 => fX8_braces_L38 p0 (fun s7 => if (mI s7 7) = 0 then ((fX8_expects (125 : Int32) s7).bind (fun s8 => some (s8))) else (some (s7))) 1100 s4)))))
set_option maxHeartbeats 4000000 in
set_option maxRecDepth 100000 in
theorem qX8_braces {E : evT} {l : Launch} {D : va_G} {bd : Nat → Nat} {κ : Nat → ClassId} (hE : EvOk E) (p0 : Nat) (hp0 : p0 < 67) (s : mS) {o : (mS)} (h : fX8_braces p0 s = some o) : Cv l yX8_braces wsX8_braces rmX8_braces (mW bd κ) E D (tyA κ)  [.ref (bd 67), .ref (bd p0)] s (fun s2 => o = s2) := by
  rw [fX8_braces] at h
  refine s_v (cc := cX8_braces) (nL := 2) (own := RX8) hE (mW_WA bd κ) (by decide) rfl rfl (Nat.le_of_ble_eq_true rfl) (fun Γ G hret => ?_)
  refine r_aload_n G 1 rfl rfl dX8_braces_0 ?_
  refine r_aload_n G 1 rfl rfl dX8_braces_1 ?_
  refine r_iconst G (v := 2) (by decide) dX8_braces_2 ?_
  refine r_aload_n G 1 rfl rfl dX8_braces_3 ?_
  obtain ⟨o1, e1, h⟩ := ob h
  refine r_callSv G [.ref (bd p0), .ref (bd p0), .int 2, .ref (bd p0)] (qX8_joins hE p0 hp0 p0 hp0 (2 : Int32) p0 hp0 _ e1) gX8_braces_X8_joins rfl hdX8_joins ⟨Nat.le_of_ble_eq_true rfl, Nat.le_of_ble_eq_true rfl⟩ (Nat.le_of_ble_eq_true rfl) rfl ⟨Nat.le_of_ble_eq_true rfl, Nat.le_of_ble_eq_true rfl⟩ rfl rfl dX8_braces_4 (fun s1 hp => ?_)
  have hp := hp.symm
  subst hp
  try dsimp only at h
  refine r_aload_n G 0 rfl rfl dX8_braces_7 ?_
  refine r_bipush G (v := 123) (by decide) dX8_braces_8 ?_
  obtain ⟨o2, e2, h⟩ := ob h
  refine r_callVv G [.int 123] (qX8_expects hE (123 : Int32) _ e2) ⟨67, 8, _, _, rfl, (mw_MO bd κ _), rfl⟩ gX8_braces_X8_expects rfl hdX8_expects ⟨Nat.le_of_ble_eq_true rfl, Nat.le_of_ble_eq_true rfl⟩ (Nat.le_of_ble_eq_true rfl) rfl ⟨Nat.le_of_ble_eq_true rfl, Nat.le_of_ble_eq_true rfl⟩ rfl rfl dX8_braces_10 (fun s2 hp => ?_)
  have hp := hp.symm
  subst hp
  try dsimp only at h
  refine r_aload_n G 0 rfl rfl dX8_braces_13 ?_
  obtain ⟨o3, e3, h⟩ := ob h
  refine r_callVi G [] (qX8_signBehindBlanks hE _ e3) ⟨67, 8, _, _, rfl, (mw_MO bd κ _), rfl⟩ gX8_braces_X8_signBehindBlanks rfl hdX8_signBehindBlanks ⟨Nat.le_of_ble_eq_true rfl, Nat.le_of_ble_eq_true rfl⟩ (Nat.le_of_ble_eq_true rfl) rfl ⟨Nat.le_of_ble_eq_true rfl, Nat.le_of_ble_eq_true rfl⟩ rfl rfl dX8_braces_14 (fun r3 s3 hp hn3 => ?_)
  subst hp
  try dsimp only at h
  refine r_bipush G (v := 125) (by decide) dX8_braces_17 ?_
  refine r_icmp_ne G (tgt := 33) dX8_braces_19 (by decide) (fun c => ?_) (fun c => ?_)
  · rw [if_neg c] at h
    refine r_aload_n G 0 rfl rfl dX8_braces_33 ?_
    refine r_aload_n G 1 rfl rfl dX8_braces_34 ?_
    obtain ⟨o4, e4, h⟩ := ob h
    refine r_callVv G [.ref (bd p0)] (qX8_item hE p0 hp0 _ e4) ⟨67, 8, _, _, rfl, (mw_MO bd κ _), rfl⟩ gX8_braces_X8_item rfl hdX8_item ⟨Nat.le_of_ble_eq_true rfl, Nat.le_of_ble_eq_true rfl⟩ (Nat.le_of_ble_eq_true rfl) rfl ⟨Nat.le_of_ble_eq_true rfl, Nat.le_of_ble_eq_true rfl⟩ rfl rfl dX8_braces_35 (fun s4 hp => ?_)
    have hp := hp.symm
    subst hp
    try dsimp only at h
    refine wX8_braces_L38 hE G _ hp0 hret (fun s7 h => ?_) 1100 _ h
    · try dsimp only at h
      refine r_aload_n G 0 rfl rfl dX8_braces_72 ?_
      refine r_get G (C := RX8) (T := TX8) (N := 19) kX8_braces_X8 67 (mw_MO bd κ _) rfl 14 (by decide) mX8_braces_f164 rfl rfl dX8_braces_73 ?_
      refine r_if_ne G (tgt := 85) dX8_braces_76 (by decide) (fun c => ?_) (fun c => ?_)
      · rw [if_neg c] at h
        exact hret _ _ _ _ _ dX8_braces_85 (Option.some.inj h).symm (Nat.le_of_ble_eq_true rfl) (Nat.le_of_ble_eq_true rfl)
      · rw [if_pos c] at h
        refine r_aload_n G 0 rfl rfl dX8_braces_79 ?_
        refine r_bipush G (v := 125) (by decide) dX8_braces_80 ?_
        obtain ⟨o8, e8, h⟩ := ob h
        refine r_callVv G [.int 125] (qX8_expects hE (125 : Int32) _ e8) ⟨67, 8, _, _, rfl, (mw_MO bd κ _), rfl⟩ gX8_braces_X8_expects rfl hdX8_expects ⟨Nat.le_of_ble_eq_true rfl, Nat.le_of_ble_eq_true rfl⟩ (Nat.le_of_ble_eq_true rfl) rfl ⟨Nat.le_of_ble_eq_true rfl, Nat.le_of_ble_eq_true rfl⟩ rfl rfl dX8_braces_82 (fun s8 hp => ?_)
        have hp := hp.symm
        subst hp
        try dsimp only at h
        exact hret _ _ _ _ _ dX8_braces_85 (Option.some.inj h).symm (Nat.le_of_ble_eq_true rfl) (Nat.le_of_ble_eq_true rfl)
  · rw [if_pos c] at h
    refine r_aload_n G 0 rfl rfl dX8_braces_22 ?_
    refine r_dup G rfl dX8_braces_23 ?_
    refine r_get G (C := RX8) (T := TX8) (N := 19) kX8_braces_X8 67 (mw_MO bd κ _) rfl 12 (by decide) mX8_braces_f170 rfl rfl dX8_braces_24 ?_
    refine r_iconst G (v := 1) (by decide) dX8_braces_27 ?_
    refine r_iadd G dX8_braces_28 ?_
    refine r_put G (C := RX8) (T := TX8) (N := 19) kX8_braces_X8 tyX8 tyX8_ok nmX8 67 (mw_MO bd κ _) rfl 12 (by decide) mX8_braces_f170 rfl rfl (tyX8_ok 12 (by decide)) rfl rfl (Nat.le_of_ble_eq_true rfl) (mu_at bd κ _ _) dX8_braces_29 ?_
    exact hret _ _ _ _ _ dX8_braces_32 (Option.some.inj h).symm (Nat.le_of_ble_eq_true rfl) (Nat.le_of_ble_eq_true rfl)
abbrev rmX8_joinsHighest : Room := { frames := 1, cells := 0, slots := 0, locals := 24 }
set_option maxRecDepth 20000 in
theorem kX8_joinsHighest_X8 : ∀ w ∈ u_ws RX8 TX8 19, w ∈ wsX8_joinsHighest := by decide +kernel
set_option maxRecDepth 20000 in
theorem mX8_joinsHighest_f164 : Cond.fieldLink RX8 164 "SetCouncilModel" "errorKind" "I" ∈ wsX8_joinsHighest := by decide +kernel
set_option maxRecDepth 20000 in
theorem mX8_joinsHighest_f200 : Cond.fieldLink RX8 200 "SetCouncilModel" "high" "I" ∈ wsX8_joinsHighest := by decide +kernel
set_option maxRecDepth 20000 in
theorem mX8_joinsHighest_f47 : Cond.fieldLink RX8 47 "SetCouncilModel" "pile" "[[Z" ∈ wsX8_joinsHighest := by decide +kernel
def fX8_joinsHighest (p0 : Int32) (s : mS) : Option (mS) := if (mI s 7) = 0 then (if vin ((mI (vI s 4 ((mI s 4) - 1)) 4) - 1) 40 = true then (if vin (mI (vI s 4 ((mI s 4) - 1)) 4) 40 = true then (if vin ((mI (vI s 4 ((mI s 4) - 1)) 4) - 1) 40 = true then ((fX8_joins (24 + ((mI (vI s 4 ((mI s 4) - 1)) 4) - 1).toNatClampNeg) (24 + (mI (vI s 4 ((mI s 4) - 1)) 4).toNatClampNeg) p0 (24 + ((mI (vI s 4 ((mI s 4) - 1)) 4) - 1).toNatClampNeg) (vI s 4 ((mI s 4) - 1))).bind (fun s4 => some (s4))) else none) else none) else none) else (some (s))
set_option maxHeartbeats 4000000 in
set_option maxRecDepth 100000 in
theorem qX8_joinsHighest {E : evT} {l : Launch} {D : va_G} {bd : Nat → Nat} {κ : Nat → ClassId} (hE : EvOk E) (p0 : Int32) (s : mS) {o : (mS)} (h : fX8_joinsHighest p0 s = some o) : Cv l yX8_joinsHighest wsX8_joinsHighest rmX8_joinsHighest (mW bd κ) E D (tyA κ)  [.ref (bd 67), .int p0] s (fun s2 => o = s2) := by
  rw [fX8_joinsHighest] at h
  refine s_v (cc := cX8_joinsHighest) (nL := 2) (own := RX8) hE (mW_WA bd κ) (by decide) rfl rfl (Nat.le_of_ble_eq_true rfl) (fun Γ G hret => ?_)
  refine r_aload_n G 0 rfl rfl dX8_joinsHighest_0 ?_
  refine r_get G (C := RX8) (T := TX8) (N := 19) kX8_joinsHighest_X8 67 (mw_MO bd κ _) rfl 14 (by decide) mX8_joinsHighest_f164 rfl rfl dX8_joinsHighest_1 ?_
  refine r_if_ne G (tgt := 52) dX8_joinsHighest_4 (by decide) (fun c => ?_) (fun c => ?_)
  · rw [if_neg c] at h
    exact hret _ _ _ _ _ dX8_joinsHighest_52 (Option.some.inj h).symm (Nat.le_of_ble_eq_true rfl) (Nat.le_of_ble_eq_true rfl)
  · rw [if_pos c] at h
    refine r_aload_n G 0 rfl rfl dX8_joinsHighest_7 ?_
    refine r_dup G rfl dX8_joinsHighest_8 ?_
    refine r_get G (C := RX8) (T := TX8) (N := 19) kX8_joinsHighest_X8 67 (mw_MO bd κ _) rfl 11 (by decide) mX8_joinsHighest_f200 rfl rfl dX8_joinsHighest_9 ?_
    refine r_iconst G (v := 1) (by decide) dX8_joinsHighest_12 ?_
    refine r_isub G dX8_joinsHighest_13 ?_
    refine r_put G (C := RX8) (T := TX8) (N := 19) kX8_joinsHighest_X8 tyX8 tyX8_ok nmX8 67 (mw_MO bd κ _) rfl 11 (by decide) mX8_joinsHighest_f200 rfl rfl (tyX8_ok 11 (by decide)) rfl rfl (Nat.le_of_ble_eq_true rfl) (mu_high bd κ _ _) dX8_joinsHighest_14 ?_
    refine r_aload_n G 0 rfl rfl dX8_joinsHighest_17 ?_
    refine r_get G (C := RX8) (T := TX8) (N := 19) kX8_joinsHighest_X8 67 (mw_MO bd κ _) rfl 10 (by decide) mX8_joinsHighest_f47 rfl rfl dX8_joinsHighest_18 ?_
    refine r_aload_n G 0 rfl rfl dX8_joinsHighest_21 ?_
    refine r_get G (C := RX8) (T := TX8) (N := 19) kX8_joinsHighest_X8 67 (mw_MO bd κ _) rfl 11 (by decide) mX8_joinsHighest_f200 rfl rfl dX8_joinsHighest_22 ?_
    refine r_iconst G (v := 1) (by decide) dX8_joinsHighest_25 ?_
    refine r_isub G dX8_joinsHighest_26 ?_
    obtain ⟨g1, h⟩ := og h
    refine r_aldA G 71 5 (mw_PILEG bd κ _) rfl (vin_in g1) rfl dX8_joinsHighest_27 ?_
    refine r_aload_n G 0 rfl rfl dX8_joinsHighest_28 ?_
    refine r_get G (C := RX8) (T := TX8) (N := 19) kX8_joinsHighest_X8 67 (mw_MO bd κ _) rfl 10 (by decide) mX8_joinsHighest_f47 rfl rfl dX8_joinsHighest_29 ?_
    refine r_aload_n G 0 rfl rfl dX8_joinsHighest_32 ?_
    refine r_get G (C := RX8) (T := TX8) (N := 19) kX8_joinsHighest_X8 67 (mw_MO bd κ _) rfl 11 (by decide) mX8_joinsHighest_f200 rfl rfl dX8_joinsHighest_33 ?_
    obtain ⟨g2, h⟩ := og h
    refine r_aldA G 71 5 (mw_PILEG bd κ _) rfl (vin_in g2) rfl dX8_joinsHighest_36 ?_
    refine r_iload_n G 1 rfl rfl dX8_joinsHighest_37 ?_
    refine r_aload_n G 0 rfl rfl dX8_joinsHighest_38 ?_
    refine r_get G (C := RX8) (T := TX8) (N := 19) kX8_joinsHighest_X8 67 (mw_MO bd κ _) rfl 10 (by decide) mX8_joinsHighest_f47 rfl rfl dX8_joinsHighest_39 ?_
    refine r_aload_n G 0 rfl rfl dX8_joinsHighest_42 ?_
    refine r_get G (C := RX8) (T := TX8) (N := 19) kX8_joinsHighest_X8 67 (mw_MO bd κ _) rfl 11 (by decide) mX8_joinsHighest_f200 rfl rfl dX8_joinsHighest_43 ?_
    refine r_iconst G (v := 1) (by decide) dX8_joinsHighest_46 ?_
    refine r_isub G dX8_joinsHighest_47 ?_
    obtain ⟨g3, h⟩ := og h
    refine r_aldA G 71 5 (mw_PILEG bd κ _) rfl (vin_in g3) rfl dX8_joinsHighest_48 ?_
    obtain ⟨o4, e4, h⟩ := ob h
    refine r_callSv G [.ref (bd (24 + ((mI (vI s 4 ((mI s 4) - 1)) 4) - 1).toNatClampNeg)), .ref (bd (24 + (mI (vI s 4 ((mI s 4) - 1)) 4).toNatClampNeg)), .int p0, .ref (bd (24 + ((mI (vI s 4 ((mI s 4) - 1)) 4) - 1).toNatClampNeg))] (qX8_joins hE (24 + ((mI (vI s 4 ((mI s 4) - 1)) 4) - 1).toNatClampNeg) (by have := vin_lt g1; omega) (24 + (mI (vI s 4 ((mI s 4) - 1)) 4).toNatClampNeg) (by have := vin_lt g2; omega) p0 (24 + ((mI (vI s 4 ((mI s 4) - 1)) 4) - 1).toNatClampNeg) (by have := vin_lt g3; omega) _ e4) gX8_joinsHighest_X8_joins rfl hdX8_joins ⟨Nat.le_of_ble_eq_true rfl, Nat.le_of_ble_eq_true rfl⟩ (Nat.le_of_ble_eq_true rfl) rfl ⟨Nat.le_of_ble_eq_true rfl, Nat.le_of_ble_eq_true rfl⟩ rfl rfl dX8_joinsHighest_49 (fun s4 hp => ?_)
    have hp := hp.symm
    subst hp
    try dsimp only at h
    exact hret _ _ _ _ _ dX8_joinsHighest_52 (Option.some.inj h).symm (Nat.le_of_ble_eq_true rfl) (Nat.le_of_ble_eq_true rfl)
