abbrev rmX8_type : Room := { frames := 1, cells := 0, slots := 0, locals := 22 }
set_option maxRecDepth 20000 in
theorem mX8_type_c139 : Cond.constantLong RX8 139 (255) ∈ wsX8_type := by decide +kernel
set_option maxHeartbeats 4000000 in
set_option maxRecDepth 100000 in
theorem wX8_type_L5 {E : evT} {l : Launch} {D : va_G} {bd : Nat → Nat} {κ : Nat → ClassId} (hE : EvOk E) {Γ : cxT} (G : Cx (mW bd κ) D (tyA κ) E l Γ cX8_type RX8 wsX8_type 6 rmX8_type) (x1 : Int64) {o : (Int32 × mS)} (hret : ∀ (st2 : mS) (v : Int32) (cells slots pc : Nat) (lv : List (Nat × Value)), decode cX8_type pc = .ok (.ireturn, 1) → o = (v, st2) → narrow .int (.int v) = .int v → cells ≤ rmX8_type.cells → slots ≤ rmX8_type.slots → V (mW bd κ) D Γ st2 cells slots pc lv [.int v]) {k0 : Int32 → mS → Option (Int32 × mS)} (hk0 : ∀ (y3 : Int32) (s : mS), k0 y3 s = some o → V (mW bd κ) D Γ s 0 0 42 [(0, .ref (bd 67)), (1, .long x1), (3, .int y3)] []) : ∀ (fuel : Nat) (x3 : Int32) (x4 : Int32) (s : mS), fX8_type_L5 x1 k0 fuel x3 x4 s = some o → V (mW bd κ) D Γ s 0 0 5 [(0, .ref (bd 67)), (1, .long x1), (3, .int x3), (4, .int x4)] [] := by
  intro fuel
  induction fuel with
  | zero =>
    intro _ _ _ h
    have h : none = some o := h
    cases h
  | succ fuel ih =>
    intro x3 x4 s h
    rw [fX8_type_L5] at h
    refine r_iload G 3 rfl dX8_type_5 ?_
    refine r_bipush G (v := 8) (by decide) dX8_type_7 ?_
    refine r_icmp_ge G (tgt := 42) dX8_type_9 (by decide) (fun c => ?_) (fun c => ?_)
    · rw [if_pos c] at h
      refine V.sub (lv' := [(0, .ref (bd 67)), (1, .long x1), (3, .int x3)]) [0, 1, 2] rfl ?_
      exact hk0 _ _ h
    · rw [if_neg c] at h
      refine r_iload_n G 2 rfl rfl dX8_type_12 ?_
      refine r_lload_n G 1 rfl rfl dX8_type_13 ?_
      refine r_bipush G (v := 8) (by decide) dX8_type_14 ?_
      refine r_iload G 3 rfl dX8_type_16 ?_
      refine r_imul G dX8_type_18 ?_
      refine r_lshr G dX8_type_19 ?_
      refine r_ldc2 G mX8_type_c139 dX8_type_20 ?_
      refine r_land G dX8_type_23 ?_
      refine r_lconst G (v := 0) (by decide) dX8_type_24 ?_
      refine r_lcmp G dX8_type_25 ?_
      refine r_if_ne G (tgt := 33) dX8_type_26 (by decide) (fun c => ?_) (fun c => ?_)
      · rw [if_neg c] at h
        refine r_iconst G (v := 1) (by decide) dX8_type_33 ?_
        refine r_iadd G dX8_type_34 ?_
        refine r_istore_n G (lv' := [(0, .ref (bd 67)), (1, .long x1), (3, .int (x3 + 1)), (4, .int x4)]) [1, 2, 0, 3] rfl rfl (by decide) dX8_type_35 ?_
        refine r_iinc G (j := 3) rfl (v := x4 + 1) (lv' := [(0, .ref (bd 67)), (1, .long x1), (3, .int (x3 + 1)), (4, .int (x4 + 1))]) rfl [1, 2, 3, 0] rfl (by decide) dX8_type_36 ?_
        refine r_goto G (tgt := 5) dX8_type_39 (by decide) ?_
        exact ih _ _ _ h
      · rw [if_pos c] at h
        refine r_iconst G (v := 0) (by decide) dX8_type_29 ?_
        refine r_goto G (tgt := 34) dX8_type_30 (by decide) ?_
        refine r_iadd G dX8_type_34 ?_
        refine r_istore_n G (lv' := [(0, .ref (bd 67)), (1, .long x1), (3, .int (x3 + 0)), (4, .int x4)]) [1, 2, 0, 3] rfl rfl (by decide) dX8_type_35 ?_
        refine r_iinc G (j := 3) rfl (v := x4 + 1) (lv' := [(0, .ref (bd 67)), (1, .long x1), (3, .int (x3 + 0)), (4, .int (x4 + 1))]) rfl [1, 2, 3, 0] rfl (by decide) dX8_type_36 ?_
        refine r_goto G (tgt := 5) dX8_type_39 (by decide) ?_
        exact ih _ _ _ h
set_option maxRecDepth 20000 in
theorem kX8_type_X8 : ∀ w ∈ u_ws RX8 TX8 19, w ∈ wsX8_type := by decide +kernel
set_option maxRecDepth 20000 in
theorem mX8_type_f141 : Cond.fieldLink RX8 141 "SetCouncilModel" "textMany" "I" ∈ wsX8_type := by decide +kernel
set_option maxRecDepth 20000 in
theorem mX8_type_f43 : Cond.fieldLink RX8 43 "SetCouncilModel" "text" "[I" ∈ wsX8_type := by decide +kernel
set_option maxHeartbeats 4000000 in
set_option maxRecDepth 100000 in
theorem wX8_type_L73 {E : evT} {l : Launch} {D : va_G} {bd : Nat → Nat} {κ : Nat → ClassId} (hE : EvOk E) {Γ : cxT} (G : Cx (mW bd κ) D (tyA κ) E l Γ cX8_type RX8 wsX8_type 6 rmX8_type) (x1 : Int64) {o : (Int32 × mS)} (hret : ∀ (st2 : mS) (v : Int32) (cells slots pc : Nat) (lv : List (Nat × Value)), decode cX8_type pc = .ok (.ireturn, 1) → o = (v, st2) → narrow .int (.int v) = .int v → cells ≤ rmX8_type.cells → slots ≤ rmX8_type.slots → V (mW bd κ) D Γ st2 cells slots pc lv [.int v]) : ∀ (fuel : Nat) (x4 : Int32) (s : mS), fX8_type_L73 x1 fuel x4 s = some o → V (mW bd κ) D Γ s 0 0 73 [(0, .ref (bd 67)), (1, .long x1), (4, .int x4)] [] := by
  intro fuel
  induction fuel with
  | zero =>
    intro _ _ h
    have h : none = some o := h
    cases h
  | succ fuel ih =>
    intro x4 s h
    rw [fX8_type_L73] at h
    refine r_iload G 2 rfl dX8_type_73 ?_
    refine r_if_lt G (tgt := 124) dX8_type_75 (by decide) (fun c => ?_) (fun c => ?_)
    · rw [if_pos c] at h
      refine r_aload_n G 0 rfl rfl dX8_type_124 ?_
      refine r_get G (C := RX8) (T := TX8) (N := 19) kX8_type_X8 67 (mw_MO bd κ _) rfl 9 (by decide) mX8_type_f141 rfl rfl dX8_type_125 ?_
      exact hret _ _ _ _ _ _ dX8_type_128 (Option.some.inj h).symm rfl (Nat.le_of_ble_eq_true rfl) (Nat.le_of_ble_eq_true rfl)
    · rw [if_neg c] at h
      refine r_lload_n G 1 rfl rfl dX8_type_78 ?_
      refine r_bipush G (v := 8) (by decide) dX8_type_79 ?_
      refine r_iload G 2 rfl dX8_type_81 ?_
      refine r_imul G dX8_type_83 ?_
      refine r_lshr G dX8_type_84 ?_
      refine r_ldc2 G mX8_type_c139 dX8_type_85 ?_
      refine r_land G dX8_type_88 ?_
      refine r_l2i G dX8_type_89 ?_
      refine r_istore G (lv' := [(0, .ref (bd 67)), (1, .long x1), (4, .int x4), (5, .int (((x1 >>> ((8 * x4).toInt64 &&& 63)) &&& 255).toInt32))]) [1, 2, 3, 0] rfl (by decide) dX8_type_90 ?_
      refine r_iload G 3 rfl dX8_type_92 ?_
      refine r_if_eq G (tgt := 118) dX8_type_94 (by decide) (fun c => ?_) (fun c => ?_)
      · rw [if_pos c] at h
        refine r_iinc G (j := 2) rfl (v := x4 + (-1)) (lv' := [(0, .ref (bd 67)), (1, .long x1), (4, .int (x4 + (-1)))]) (iincm _) [1, 2, 0] rfl (by decide) dX8_type_118 ?_
        refine r_goto G (tgt := 73) dX8_type_121 (by decide) ?_
        exact ih _ _ h
      · rw [if_neg c] at h
        refine r_aload_n G 0 rfl rfl dX8_type_97 ?_
        refine r_get G (C := RX8) (T := TX8) (N := 19) kX8_type_X8 67 (mw_MO bd κ _) rfl 8 (by decide) mX8_type_f43 rfl rfl dX8_type_98 ?_
        refine r_aload_n G 0 rfl rfl dX8_type_101 ?_
        refine r_get G (C := RX8) (T := TX8) (N := 19) kX8_type_X8 67 (mw_MO bd κ _) rfl 9 (by decide) mX8_type_f141 rfl rfl dX8_type_102 ?_
        refine r_iload G 3 rfl dX8_type_105 ?_
        obtain ⟨g3, h⟩ := og h
        refine r_iast G 72 3 (mw_MTEXT bd κ _) rfl (vin_in g3) (mu_TEXT bd κ _ _ _) dX8_type_107 ?_
        refine r_aload_n G 0 rfl rfl dX8_type_108 ?_
        refine r_dup G rfl dX8_type_109 ?_
        refine r_get G (C := RX8) (T := TX8) (N := 19) kX8_type_X8 67 (mw_MO bd κ _) rfl 9 (by decide) mX8_type_f141 rfl rfl dX8_type_110 ?_
        refine r_iconst G (v := 1) (by decide) dX8_type_113 ?_
        refine r_iadd G dX8_type_114 ?_
        refine r_put G (C := RX8) (T := TX8) (N := 19) kX8_type_X8 tyX8 tyX8_ok nmX8 67 (mw_MO bd κ _) rfl 9 (by decide) mX8_type_f141 rfl rfl (tyX8_ok 9 (by decide)) rfl rfl (Nat.le_of_ble_eq_true rfl) (mu_textMany bd κ _ _) dX8_type_115 ?_
        refine r_iinc G (j := 2) rfl (v := x4 + (-1)) (lv' := [(0, .ref (bd 67)), (1, .long x1), (4, .int (x4 + (-1)))]) (iincm _) [1, 2, 0] rfl (by decide) dX8_type_118 ?_
        refine r_goto G (tgt := 73) dX8_type_121 (by decide) ?_
        exact ih _ _ h
set_option maxHeartbeats 4000000 in
set_option maxRecDepth 100000 in
theorem qX8_type {E : evT} {l : Launch} {D : va_G} {bd : Nat → Nat} {κ : Nat → ClassId} (hE : EvOk E) (p0 : Int64) (s : mS) {o : (Int32 × mS)} (h : fX8_type p0 s = some o) : Ci l yX8_type wsX8_type rmX8_type (mW bd κ) E D (tyA κ) .int [.ref (bd 67), .long p0] s (fun r s2 => o = (r, s2)) := by
  rw [fX8_type] at h
  refine s_i (cc := cX8_type) (nL := 6) (own := RX8) hE (mW_WA bd κ) (plainFor_of_name (by decide)) rfl rfl (Nat.le_of_ble_eq_true rfl) (fun Γ G hret => ?_)
  refine r_iconst G (v := 0) (by decide) dX8_type_0 ?_
  refine r_istore_n G (lv' := [(0, .ref (bd 67)), (1, .long p0), (3, .int 0)]) [1, 2, 0] rfl rfl (by decide) dX8_type_1 ?_
  refine r_iconst G (v := 0) (by decide) dX8_type_2 ?_
  refine r_istore G (lv' := [(0, .ref (bd 67)), (1, .long p0), (3, .int 0), (4, .int 0)]) [1, 2, 3, 0] rfl (by decide) dX8_type_3 ?_
  refine wX8_type_L5 hE G _ hret (fun y3_1 s1 h => ?_) 1100 _ _ _ h
  · try dsimp only at h
    refine r_aload_n G 0 rfl rfl dX8_type_42 ?_
    refine r_aload_n G 0 rfl rfl dX8_type_43 ?_
    refine r_get G (C := RX8) (T := TX8) (N := 19) kX8_type_X8 67 (mw_MO bd κ _) rfl 9 (by decide) mX8_type_f141 rfl rfl dX8_type_44 ?_
    refine r_iload_n G 2 rfl rfl dX8_type_47 ?_
    refine r_iadd G dX8_type_48 ?_
    refine r_sipush G (v := 200) (by decide) dX8_type_49 ?_
    refine r_icmp_gt G (tgt := 59) dX8_type_52 (by decide) (fun c => ?_) (fun c => ?_)
    · rw [if_pos c] at h
      refine r_iconst G (v := 0) (by decide) dX8_type_59 ?_
      refine r_iconst G (v := 1) (by decide) dX8_type_60 ?_
      obtain ⟨o2, e2, h⟩ := ob h
      refine r_callVi G [.int 0, .int 1] (qX8_passes hE (0 : Int32) (1 : Int32) _ e2) ⟨67, 8, _, _, rfl, (mw_MO bd κ _), rfl⟩ gX8_type_X8_passes rfl hdX8_passes ⟨Nat.le_of_ble_eq_true rfl, Nat.le_of_ble_eq_true rfl⟩ (Nat.le_of_ble_eq_true rfl) rfl ⟨Nat.le_of_ble_eq_true rfl, Nat.le_of_ble_eq_true rfl⟩ rfl rfl dX8_type_61 (fun r2 s2 hp hn2 => ?_)
      subst hp
      try dsimp only at h
      refine r_if_ne G (tgt := 69) dX8_type_64 (by decide) (fun c => ?_) (fun c => ?_)
      · rw [if_neg c] at h
        refine r_bipush G (v := 7) (by decide) dX8_type_69 ?_
        refine r_istore G (lv' := [(0, .ref (bd 67)), (1, .long p0), (4, .int 7)]) [1, 2, 0] rfl (by decide) dX8_type_71 ?_
        refine wX8_type_L73 hE G _ hret 1100 _ _ h
      · rw [if_pos c] at h
        refine r_iconst G (v := 0) (by decide) dX8_type_67 ?_
        exact hret _ _ _ _ _ _ dX8_type_68 (Option.some.inj h).symm rfl (Nat.le_of_ble_eq_true rfl) (Nat.le_of_ble_eq_true rfl)
    · rw [if_neg c] at h
      refine r_iconst G (v := 1) (by decide) dX8_type_55 ?_
      refine r_goto G (tgt := 60) dX8_type_56 (by decide) ?_
      refine r_iconst G (v := 1) (by decide) dX8_type_60 ?_
      obtain ⟨o4, e4, h⟩ := ob h
      refine r_callVi G [.int 1, .int 1] (qX8_passes hE (1 : Int32) (1 : Int32) _ e4) ⟨67, 8, _, _, rfl, (mw_MO bd κ _), rfl⟩ gX8_type_X8_passes rfl hdX8_passes ⟨Nat.le_of_ble_eq_true rfl, Nat.le_of_ble_eq_true rfl⟩ (Nat.le_of_ble_eq_true rfl) rfl ⟨Nat.le_of_ble_eq_true rfl, Nat.le_of_ble_eq_true rfl⟩ rfl rfl dX8_type_61 (fun r4 s4 hp hn4 => ?_)
      subst hp
      try dsimp only at h
      refine r_if_ne G (tgt := 69) dX8_type_64 (by decide) (fun c => ?_) (fun c => ?_)
      · rw [if_neg c] at h
        refine r_bipush G (v := 7) (by decide) dX8_type_69 ?_
        refine r_istore G (lv' := [(0, .ref (bd 67)), (1, .long p0), (4, .int 7)]) [1, 2, 0] rfl (by decide) dX8_type_71 ?_
        refine wX8_type_L73 hE G _ hret 1100 _ _ h
      · rw [if_pos c] at h
        refine r_iconst G (v := 0) (by decide) dX8_type_67 ?_
        exact hret _ _ _ _ _ _ dX8_type_68 (Option.some.inj h).symm rfl (Nat.le_of_ble_eq_true rfl) (Nat.le_of_ble_eq_true rfl)
