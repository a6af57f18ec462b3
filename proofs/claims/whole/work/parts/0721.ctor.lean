set_option maxRecDepth 20000 in
theorem mX2_init_o1 : Cond.methodLink RX2 3 Lib.objectInit ∈ wsX2_init := by decide +kernel
set_option maxRecDepth 20000 in
theorem mX2_init_o2 : Cond.instanceMethod Lib.objectInit ∈ wsX2_init := by decide +kernel
set_option maxRecDepth 20000 in
theorem mX2_init_o3 : Cond.code Lib.objectInit ⟨#[0xb1]⟩ 1 none ∈ wsX2_init := by decide +kernel
set_option maxRecDepth 20000 in
theorem mX2_init_f9 : Cond.fieldLink RX2 9 "SetCouncil$MemberSet" "low" "J" ∈ wsX2_init := by decide +kernel
set_option maxRecDepth 20000 in
theorem kX2_init_X2 : ∀ w ∈ u_ws RX2 TX2 2, w ∈ wsX2_init := by decide +kernel
set_option maxRecDepth 20000 in
theorem mX2_init_f15 : Cond.fieldLink RX2 15 "SetCouncil$MemberSet" "high" "J" ∈ wsX2_init := by decide +kernel
abbrev rmX2_init : Room := { frames := 1, cells := 0, slots := 0, locals := 20 }
set_option maxHeartbeats 4000000 in
set_option maxRecDepth 100000 in
theorem qX2_init {E : evT} {l : Launch} {D : va_G} {κ : Nat → ClassId} {q : Nat} (hE : EvOk E) : Cz l yX2_init wsX2_init rmX2_init E D (tyA κ) [.ref q] [cMS q] (fun w1 => w1 = [cMS q]) := by
  refine s_z (cc := cX2_init) (nL := 1) (own := RX2) hE (by decide) rfl rfl rfl (Nat.le_of_ble_eq_true rfl) (fun Γ G hn hret => ?_)
  refine r_aload_n G 0 rfl rfl dX2_init_0 ?_
  refine r_objInit G mX2_init_o1 mX2_init_o2 mX2_init_o3 (Nat.le_of_ble_eq_true rfl) (Nat.le_of_ble_eq_true rfl) dX2_init_1 ?_
  refine r_aload_n G 0 rfl rfl dX2_init_4 ?_
  refine r_lconst G (v := 0) (by decide) dX2_init_5 ?_
  refine z_put G (C := RX2) (T := TX2) (N := 2) (ws2 := [cMS q]) kX2_init_X2 tyX2 tyX2_ok nmX2 0 rfl rfl 0 (by decide) mX2_init_f9 rfl rfl (tyX2_ok 0 (by decide)) rfl rfl (Nat.le_of_ble_eq_true rfl) rfl dX2_init_6 (fun G => ?_)
  refine r_aload_n G 0 rfl rfl dX2_init_9 ?_
  refine r_lconst G (v := 0) (by decide) dX2_init_10 ?_
  refine z_put G (C := RX2) (T := TX2) (N := 2) (ws2 := [cMS q]) kX2_init_X2 tyX2 tyX2_ok nmX2 0 rfl rfl 1 (by decide) mX2_init_f15 rfl rfl (tyX2_ok 1 (by decide)) rfl rfl (Nat.le_of_ble_eq_true rfl) rfl dX2_init_11 (fun G => ?_)
  exact hret _ _ _ _ _ dX2_init_14 G rfl (Nat.le_of_ble_eq_true rfl) (Nat.le_of_ble_eq_true rfl)
set_option maxRecDepth 20000 in
theorem mX5_init_o1 : Cond.methodLink RX5 1 Lib.objectInit ∈ wsX5_init := by decide +kernel
set_option maxRecDepth 20000 in
theorem mX5_init_o2 : Cond.instanceMethod Lib.objectInit ∈ wsX5_init := by decide +kernel
set_option maxRecDepth 20000 in
theorem mX5_init_o3 : Cond.code Lib.objectInit ⟨#[0xb1]⟩ 1 none ∈ wsX5_init := by decide +kernel
set_option maxRecDepth 20000 in
theorem mX5_init_f7 : Cond.fieldLink RX5 7 "SetCouncil$View" "behind" "LSetCouncil$MemberSet;" ∈ wsX5_init := by decide +kernel
set_option maxRecDepth 20000 in
theorem kX5_init_X5 : ∀ w ∈ u_ws RX5 TX5 1, w ∈ wsX5_init := by decide +kernel
abbrev rmX5_init : Room := { frames := 1, cells := 0, slots := 0, locals := 20 }
set_option maxHeartbeats 4000000 in
set_option maxRecDepth 100000 in
theorem qX5_init {E : evT} {l : Launch} {D : va_G} {κ : Nat → ClassId} {q t1 : Nat} (hE : EvOk E) : Cz l yX5_init wsX5_init rmX5_init E D (tyA κ) [.ref q, .ref t1] [(q, .inr (5, [.null]))] (fun w1 => w1 = [(q, .inr (5, [.ref t1]))]) := by
  refine s_z (cc := cX5_init) (nL := 2) (own := RX5) hE (by decide) rfl rfl rfl (Nat.le_of_ble_eq_true rfl) (fun Γ G hn hret => ?_)
  refine r_aload_n G 0 rfl rfl dX5_init_0 ?_
  refine r_objInit G mX5_init_o1 mX5_init_o2 mX5_init_o3 (Nat.le_of_ble_eq_true rfl) (Nat.le_of_ble_eq_true rfl) dX5_init_1 ?_
  refine r_aload_n G 0 rfl rfl dX5_init_4 ?_
  refine r_aload_n G 1 rfl rfl dX5_init_5 ?_
  refine z_putF G (C := RX5) (T := TX5) (N := 1) (ws2 := [(q, .inr (5, [.ref t1]))]) kX5_init_X5 tyX5 tyX5_ok nmX5 hn 0 rfl rfl 0 (by decide) mX5_init_f7 rfl rfl rfl (tyX5_ok 0 (by decide)) rfl rfl (Nat.le_of_ble_eq_true rfl) rfl dX5_init_6 (fun G => ?_)
  exact hret _ _ _ _ _ dX5_init_9 G rfl (Nat.le_of_ble_eq_true rfl) (Nat.le_of_ble_eq_true rfl)
set_option maxRecDepth 20000 in
theorem mX4_init_o1 : Cond.methodLink RX4 3 Lib.objectInit ∈ wsX4_init := by decide +kernel
set_option maxRecDepth 20000 in
theorem mX4_init_o2 : Cond.instanceMethod Lib.objectInit ∈ wsX4_init := by decide +kernel
set_option maxRecDepth 20000 in
theorem mX4_init_o3 : Cond.code Lib.objectInit ⟨#[0xb1]⟩ 1 none ∈ wsX4_init := by decide +kernel
set_option maxRecDepth 20000 in
theorem mX4_init_achar : Cond.arrayClass .char ∈ wsX4_init := by decide +kernel
set_option maxRecDepth 20000 in
theorem mX4_init_f9 : Cond.fieldLink RX4 9 "SetCouncil$Text" "bytes" "[C" ∈ wsX4_init := by decide +kernel
set_option maxRecDepth 20000 in
theorem kX4_init_X4 : ∀ w ∈ u_ws RX4 TX4 2, w ∈ wsX4_init := by decide +kernel
set_option maxRecDepth 20000 in
theorem mX4_init_f15 : Cond.fieldLink RX4 15 "SetCouncil$Text" "length" "I" ∈ wsX4_init := by decide +kernel
abbrev rmX4_init : Room := { frames := 1, cells := 1, slots := 200, locals := 20 }
set_option maxHeartbeats 4000000 in
set_option maxRecDepth 100000 in
theorem qX4_init {E : evT} {l : Launch} {D : va_G} {κ : Nat → ClassId} {q : Nat} (hE : EvOk E) : Cz l yX4_init wsX4_init rmX4_init E D (tyA κ) [.ref q] [(q, .inr (4, [.null, .int 0]))] (fun w1 => ∃ a1 : Nat, w1 = [(q, .inr (4, [.ref a1, .int 0])), cIA (κ 2) a1 200]) := by
  refine s_z (cc := cX4_init) (nL := 1) (own := RX4) hE (by decide) rfl rfl rfl (Nat.le_of_ble_eq_true rfl) (fun Γ G hn hret => ?_)
  refine r_aload_n G 0 rfl rfl dX4_init_0 ?_
  refine r_objInit G mX4_init_o1 mX4_init_o2 mX4_init_o3 (Nat.le_of_ble_eq_true rfl) (Nat.le_of_ble_eq_true rfl) dX4_init_1 ?_
  refine r_aload_n G 0 rfl rfl dX4_init_4 ?_
  refine r_sipush G (v := 200) (by decide) dX4_init_5 ?_
  refine z_newa G (N' := 200) (atype := .char) (ty := .char) rfl 2 (cA := κ 2) rfl (fun _ _ h => h) rfl mX4_init_achar (by decide) rfl (Nat.le_of_ble_eq_true rfl) (Nat.le_of_ble_eq_true rfl) (Nat.le_of_ble_eq_true rfl) dX4_init_8 (fun a1 G => ?_)
  refine z_eq (w2 := [(q, .inr (4, [.null, .int 0])), cIA (κ 2) a1 200]) G rfl (fun G => ?_)
  refine z_putF G (C := RX4) (T := TX4) (N := 2) (ws2 := [(q, .inr (4, [.ref a1, .int 0])), cIA (κ 2) a1 200]) kX4_init_X4 tyX4 tyX4_ok nmX4 hn 0 rfl rfl 0 (by decide) mX4_init_f9 rfl rfl rfl (tyX4_ok 0 (by decide)) rfl rfl (Nat.le_of_ble_eq_true rfl) rfl dX4_init_10 (fun G => ?_)
  refine r_aload_n G 0 rfl rfl dX4_init_13 ?_
  refine r_iconst G (v := 0) (by decide) dX4_init_14 ?_
  refine z_put G (C := RX4) (T := TX4) (N := 2) (ws2 := [(q, .inr (4, [.ref a1, .int 0])), cIA (κ 2) a1 200]) kX4_init_X4 tyX4 tyX4_ok nmX4 0 rfl rfl 1 (by decide) mX4_init_f15 rfl rfl (tyX4_ok 1 (by decide)) rfl rfl (Nat.le_of_ble_eq_true rfl) rfl dX4_init_15 (fun G => ?_)
  exact hret _ _ _ _ _ dX4_init_18 G ⟨a1, rfl⟩ (Nat.le_of_ble_eq_true rfl) (Nat.le_of_ble_eq_true rfl)
set_option maxRecDepth 20000 in
theorem mX1_init_o1 : Cond.methodLink RX1 3 Lib.objectInit ∈ wsX1_init := by decide +kernel
set_option maxRecDepth 20000 in
theorem mX1_init_o2 : Cond.instanceMethod Lib.objectInit ∈ wsX1_init := by decide +kernel
set_option maxRecDepth 20000 in
theorem mX1_init_o3 : Cond.code Lib.objectInit ⟨#[0xb1]⟩ 1 none ∈ wsX1_init := by decide +kernel
set_option maxRecDepth 20000 in
theorem kX1_init_X2 : ∀ w ∈ u_ws RX2 TX2 2, w ∈ wsX1_init := by decide +kernel
set_option maxRecDepth 20000 in
theorem mX1_init_k9 : Cond.classLink RX1 9 RX2 ∈ wsX1_init := by decide +kernel
set_option maxRecDepth 20000 in
theorem mX1_init_inX2 : Cond.instantiable RX2 2 ∈ wsX1_init := by decide +kernel
set_option maxRecDepth 20000 in
theorem mX1_init_iiX2 : Cond.initialized RX2 ∈ wsX1_init := by decide +kernel
theorem hdX2_init : yX2_init.cls ≠ "java/lang/invoke/MethodHandle" ∧ yX2_init.cls ≠ "java/lang/invoke/VarHandle" ∧ (parseMethodDescriptor yX2_init.desc).map (fun d => d.parameters.length) = some 0 := by decide +kernel
set_option maxRecDepth 20000 in
theorem mX1_init_l11 : Cond.methodLink RX1 11 yX2_init ∈ wsX1_init := by decide +kernel
set_option maxRecDepth 20000 in
theorem mX1_init_imX2 : Cond.instanceMethod yX2_init ∈ wsX1_init := by decide +kernel
set_option maxRecDepth 20000 in
theorem mX1_init_f12 : Cond.fieldLink RX1 12 "SetCouncil$Laws" "left" "LSetCouncil$MemberSet;" ∈ wsX1_init := by decide +kernel
set_option maxRecDepth 20000 in
theorem kX1_init_X1 : ∀ w ∈ u_ws RX1 TX1 3, w ∈ wsX1_init := by decide +kernel
set_option maxRecDepth 20000 in
theorem mX1_init_f18 : Cond.fieldLink RX1 18 "SetCouncil$Laws" "right" "LSetCouncil$MemberSet;" ∈ wsX1_init := by decide +kernel
set_option maxRecDepth 20000 in
theorem mX1_init_f21 : Cond.fieldLink RX1 21 "SetCouncil$Laws" "part" "LSetCouncil$MemberSet;" ∈ wsX1_init := by decide +kernel
abbrev rmX1_init : Room := { frames := 2, cells := 3, slots := 6, locals := 40 }
set_option maxHeartbeats 4000000 in
set_option maxRecDepth 100000 in
theorem qX1_init {E : evT} {l : Launch} {D : va_G} {κ : Nat → ClassId} {q : Nat} (hE : EvOk E) : Cz l yX1_init wsX1_init rmX1_init E D (tyA κ) [.ref q] [(q, .inr (1, [.null, .null, .null]))] (fun w1 => ∃ a1 a2 a3 : Nat, w1 = [(q, .inr (1, [.ref a1, .ref a2, .ref a3])), cMS a1, cMS a2, cMS a3]) := by
  refine s_z (cc := cX1_init) (nL := 1) (own := RX1) hE (by decide) rfl rfl rfl (Nat.le_of_ble_eq_true rfl) (fun Γ G hn hret => ?_)
  refine r_aload_n G 0 rfl rfl dX1_init_0 ?_
  refine r_objInit G mX1_init_o1 mX1_init_o2 mX1_init_o3 (Nat.le_of_ble_eq_true rfl) (Nat.le_of_ble_eq_true rfl) dX1_init_1 ?_
  refine r_aload_n G 0 rfl rfl dX1_init_4 ?_
  refine z_new G (C := RX2) (T := TX2) (N := 2) (ci := 2) (fs := [.long 0, .long 0]) kX1_init_X2 tyX2 tyX2_ok mX1_init_k9 mX1_init_inX2 mX1_init_iiX2 rfl (by decide) (Nat.le_of_ble_eq_true rfl) (Nat.le_of_ble_eq_true rfl) dX1_init_5 (fun a1 G => ?_)
  refine z_eq (w2 := [(q, .inr (1, [.null, .null, .null])), cMS a1]) G rfl (fun G => ?_)
  refine r_dup G rfl dX1_init_8 ?_
  refine z_callI G (P := [(q, .inr (1, [.null, .null, .null]))]) (Q := []) (w0 := [cMS a1]) rfl [] (qX2_init hE ) gX1_init_X2_init rfl mX1_init_iiX2 mX1_init_l11 mX1_init_imX2 rfl hdX2_init ⟨(Nat.le_of_ble_eq_true rfl), (Nat.le_of_ble_eq_true rfl)⟩ (Nat.le_of_ble_eq_true rfl) rfl ⟨(Nat.le_of_ble_eq_true rfl), (Nat.le_of_ble_eq_true rfl)⟩ rfl rfl dX1_init_9 (fun w1 hw1 G => ?_)
  subst hw1
  refine z_eq (w2 := [(q, .inr (1, [.null, .null, .null])), cMS a1]) G rfl (fun G => ?_)
  refine z_putF G (C := RX1) (T := TX1) (N := 3) (ws2 := [(q, .inr (1, [.ref a1, .null, .null])), cMS a1]) kX1_init_X1 tyX1 tyX1_ok nmX1 hn 0 rfl rfl 0 (by decide) mX1_init_f12 rfl rfl rfl (tyX1_ok 0 (by decide)) rfl rfl (Nat.le_of_ble_eq_true rfl) rfl dX1_init_12 (fun G => ?_)
  refine r_aload_n G 0 rfl rfl dX1_init_15 ?_
  refine z_new G (C := RX2) (T := TX2) (N := 2) (ci := 2) (fs := [.long 0, .long 0]) kX1_init_X2 tyX2 tyX2_ok mX1_init_k9 mX1_init_inX2 mX1_init_iiX2 rfl (by decide) (Nat.le_of_ble_eq_true rfl) (Nat.le_of_ble_eq_true rfl) dX1_init_16 (fun a2 G => ?_)
  refine z_eq (w2 := [(q, .inr (1, [.ref a1, .null, .null])), cMS a1, cMS a2]) G rfl (fun G => ?_)
  refine r_dup G rfl dX1_init_19 ?_
  refine z_callI G (P := [(q, .inr (1, [.ref a1, .null, .null])), cMS a1]) (Q := []) (w0 := [cMS a2]) rfl [] (qX2_init hE ) gX1_init_X2_init rfl mX1_init_iiX2 mX1_init_l11 mX1_init_imX2 rfl hdX2_init ⟨(Nat.le_of_ble_eq_true rfl), (Nat.le_of_ble_eq_true rfl)⟩ (Nat.le_of_ble_eq_true rfl) rfl ⟨(Nat.le_of_ble_eq_true rfl), (Nat.le_of_ble_eq_true rfl)⟩ rfl rfl dX1_init_20 (fun w1 hw1 G => ?_)
  subst hw1
  refine z_eq (w2 := [(q, .inr (1, [.ref a1, .null, .null])), cMS a1, cMS a2]) G rfl (fun G => ?_)
  refine z_putF G (C := RX1) (T := TX1) (N := 3) (ws2 := [(q, .inr (1, [.ref a1, .ref a2, .null])), cMS a1, cMS a2]) kX1_init_X1 tyX1 tyX1_ok nmX1 hn 0 rfl rfl 1 (by decide) mX1_init_f18 rfl rfl rfl (tyX1_ok 1 (by decide)) rfl rfl (Nat.le_of_ble_eq_true rfl) rfl dX1_init_23 (fun G => ?_)
  refine r_aload_n G 0 rfl rfl dX1_init_26 ?_
  refine z_new G (C := RX2) (T := TX2) (N := 2) (ci := 2) (fs := [.long 0, .long 0]) kX1_init_X2 tyX2 tyX2_ok mX1_init_k9 mX1_init_inX2 mX1_init_iiX2 rfl (by decide) (Nat.le_of_ble_eq_true rfl) (Nat.le_of_ble_eq_true rfl) dX1_init_27 (fun a3 G => ?_)
  refine z_eq (w2 := [(q, .inr (1, [.ref a1, .ref a2, .null])), cMS a1, cMS a2, cMS a3]) G rfl (fun G => ?_)
  refine r_dup G rfl dX1_init_30 ?_
  refine z_callI G (P := [(q, .inr (1, [.ref a1, .ref a2, .null])), cMS a1, cMS a2]) (Q := []) (w0 := [cMS a3]) rfl [] (qX2_init hE ) gX1_init_X2_init rfl mX1_init_iiX2 mX1_init_l11 mX1_init_imX2 rfl hdX2_init ⟨(Nat.le_of_ble_eq_true rfl), (Nat.le_of_ble_eq_true rfl)⟩ (Nat.le_of_ble_eq_true rfl) rfl ⟨(Nat.le_of_ble_eq_true rfl), (Nat.le_of_ble_eq_true rfl)⟩ rfl rfl dX1_init_31 (fun w1 hw1 G => ?_)
  subst hw1
  refine z_eq (w2 := [(q, .inr (1, [.ref a1, .ref a2, .null])), cMS a1, cMS a2, cMS a3]) G rfl (fun G => ?_)
  refine z_putF G (C := RX1) (T := TX1) (N := 3) (ws2 := [(q, .inr (1, [.ref a1, .ref a2, .ref a3])), cMS a1, cMS a2, cMS a3]) kX1_init_X1 tyX1 tyX1_ok nmX1 hn 0 rfl rfl 2 (by decide) mX1_init_f21 rfl rfl rfl (tyX1_ok 2 (by decide)) rfl rfl (Nat.le_of_ble_eq_true rfl) rfl dX1_init_34 (fun G => ?_)
  exact hret _ _ _ _ _ dX1_init_37 G ⟨a1, a2, a3, rfl⟩ (Nat.le_of_ble_eq_true rfl) (Nat.le_of_ble_eq_true rfl)
set_option maxRecDepth 20000 in
theorem mX0_init_o1 : Cond.methodLink RX0 3 Lib.objectInit ∈ wsX0_init := by decide +kernel
set_option maxRecDepth 20000 in
theorem mX0_init_o2 : Cond.instanceMethod Lib.objectInit ∈ wsX0_init := by decide +kernel
set_option maxRecDepth 20000 in
theorem mX0_init_o3 : Cond.code Lib.objectInit ⟨#[0xb1]⟩ 1 none ∈ wsX0_init := by decide +kernel
set_option maxRecDepth 20000 in
theorem mX0_init_k9 : Cond.classLink RX0 9 RX2 ∈ wsX0_init := by decide +kernel
set_option maxRecDepth 20000 in
theorem mX0_init_f11 : Cond.fieldLink RX0 11 "SetCouncil$Family" "held" "[LSetCouncil$MemberSet;" ∈ wsX0_init := by decide +kernel
set_option maxRecDepth 20000 in
theorem kX0_init_X0 : ∀ w ∈ u_ws RX0 TX0 3, w ∈ wsX0_init := by decide +kernel
set_option maxRecDepth 20000 in
theorem kX0_init_X2 : ∀ w ∈ u_ws RX2 TX2 2, w ∈ wsX0_init := by decide +kernel
set_option maxRecDepth 20000 in
theorem mX0_init_inX2 : Cond.instantiable RX2 2 ∈ wsX0_init := by decide +kernel
set_option maxRecDepth 20000 in
theorem mX0_init_iiX2 : Cond.initialized RX2 ∈ wsX0_init := by decide +kernel
set_option maxRecDepth 20000 in
theorem mX0_init_l17 : Cond.methodLink RX0 17 yX2_init ∈ wsX0_init := by decide +kernel
set_option maxRecDepth 20000 in
theorem mX0_init_imX2 : Cond.instanceMethod yX2_init ∈ wsX0_init := by decide +kernel
set_option maxRecDepth 20000 in
theorem mX0_init_f18 : Cond.fieldLink RX0 18 "SetCouncil$Family" "made" "LSetCouncil$MemberSet;" ∈ wsX0_init := by decide +kernel
set_option maxRecDepth 20000 in
theorem mX0_init_f22 : Cond.fieldLink RX0 22 "SetCouncil$Family" "count" "I" ∈ wsX0_init := by decide +kernel
abbrev rmX0_init : Room := { frames := 2, cells := 9, slots := 23, locals := 40 }
set_option maxHeartbeats 4000000 in
set_option maxRecDepth 100000 in
theorem qX0_init {E : evT} {l : Launch} {D : va_G} {κ : Nat → ClassId} {q : Nat} (hE : EvOk E) (hA : AOk E) : Cz l yX0_init wsX0_init rmX0_init E D (tyA κ) [.ref q] [(q, .inr (0, [.null, .null, .int 0]))] (fun w1 => ∃ a1 a2 a3 a4 a5 a6 a7 a8 a9 : Nat, w1 = [(q, .inr (0, [.ref a1, .ref a9, .int 0])), cAR (κ 0) a1 7 [a2, a3, a4, a5, a6, a7, a8], cMS a2, cMS a3, cMS a4, cMS a5, cMS a6, cMS a7, cMS a8, cMS a9]) := by
  refine s_z (cc := cX0_init) (nL := 2) (own := RX0) hE (by decide) rfl rfl rfl (Nat.le_of_ble_eq_true rfl) (fun Γ G hn hret => ?_)
  refine r_aload_n G 0 rfl rfl dX0_init_0 ?_
  refine r_objInit G mX0_init_o1 mX0_init_o2 mX0_init_o3 (Nat.le_of_ble_eq_true rfl) (Nat.le_of_ble_eq_true rfl) dX0_init_1 ?_
  refine r_aload_n G 0 rfl rfl dX0_init_4 ?_
  refine r_bipush G (v := 7) (by decide) dX0_init_5 ?_
  refine z_newq G (N' := 7) 0 (cA := κ 0) rfl mX0_init_k9 (hA _ _ _ G.ev).1 (by decide) rfl (Nat.le_of_ble_eq_true rfl) (Nat.le_of_ble_eq_true rfl) (Nat.le_of_ble_eq_true rfl) dX0_init_7 (fun a1 G => ?_)
  refine z_eq (w2 := [(q, .inr (0, [.null, .null, .int 0])), cAR (κ 0) a1 7 []]) G rfl (fun G => ?_)
  refine z_putF G (C := RX0) (T := TX0) (N := 3) (ws2 := [(q, .inr (0, [.ref a1, .null, .int 0])), cAR (κ 0) a1 7 []]) kX0_init_X0 tyX0 tyX0_ok nmX0 hn 0 rfl rfl 0 (by decide) mX0_init_f11 rfl rfl rfl (tyX0_ok 0 (by decide)) rfl rfl (Nat.le_of_ble_eq_true rfl) rfl dX0_init_10 (fun G => ?_)
  refine r_iconst G (v := 0) (by decide) dX0_init_13 ?_
  refine r_istore_n G (lv' := [(0, .ref q), (1, .int 0)]) [1, 0] rfl rfl (by decide) dX0_init_14 ?_
  refine r_iload_n G 1 rfl rfl dX0_init_15 ?_
  refine r_bipush G (v := 7) (by decide) dX0_init_16 ?_
  refine r_icmp_ge G (tgt := 40) dX0_init_18 (by decide) (fun c => absurd c (by decide)) (fun _ => ?_)
  refine r_aload_n G 0 rfl rfl dX0_init_21 ?_
  refine r_get G (C := RX0) (T := TX0) (N := 3) kX0_init_X0 0 rfl rfl 0 (by decide) mX0_init_f11 rfl rfl dX0_init_22 ?_
  refine r_iload_n G 1 rfl rfl dX0_init_25 ?_
  refine z_new G (C := RX2) (T := TX2) (N := 2) (ci := 2) (fs := [.long 0, .long 0]) kX0_init_X2 tyX2 tyX2_ok mX0_init_k9 mX0_init_inX2 mX0_init_iiX2 rfl (by decide) (Nat.le_of_ble_eq_true rfl) (Nat.le_of_ble_eq_true rfl) dX0_init_26 (fun a2 G => ?_)
  refine z_eq (w2 := [(q, .inr (0, [.ref a1, .null, .int 0])), cAR (κ 0) a1 7 [], cMS a2]) G rfl (fun G => ?_)
  refine r_dup G rfl dX0_init_29 ?_
  refine z_callI G (P := [(q, .inr (0, [.ref a1, .null, .int 0])), cAR (κ 0) a1 7 []]) (Q := []) (w0 := [cMS a2]) rfl [] (qX2_init hE ) gX0_init_X2_init rfl mX0_init_iiX2 mX0_init_l17 mX0_init_imX2 rfl hdX2_init ⟨(Nat.le_of_ble_eq_true rfl), (Nat.le_of_ble_eq_true rfl)⟩ (Nat.le_of_ble_eq_true rfl) rfl ⟨(Nat.le_of_ble_eq_true rfl), (Nat.le_of_ble_eq_true rfl)⟩ rfl rfl dX0_init_30 (fun w1 hw1 G => ?_)
  subst hw1
  refine z_eq (w2 := [(q, .inr (0, [.ref a1, .null, .int 0])), cAR (κ 0) a1 7 [], cMS a2]) G rfl (fun G => ?_)
  refine z_astq G 1 0 2 2 (f2 := fun k => ([a2] : List Nat)[k]?) (ws2 := [(q, .inr (0, [.ref a1, .null, .int 0])), cAR (κ 0) a1 7 [a2], cMS a2]) rfl rfl rfl rfl (vin_in (by decide)) (up_push [] a2) rfl dX0_init_33 (fun G => ?_)
  refine r_iinc G (j := 1) rfl (v := 1) (lv' := [(0, .ref q), (1, .int 1)]) (by decide) [1, 0] rfl (by decide) dX0_init_34 ?_
  refine r_goto G (tgt := 15) dX0_init_37 (by decide) ?_
  refine r_iload_n G 1 rfl rfl dX0_init_15 ?_
  refine r_bipush G (v := 7) (by decide) dX0_init_16 ?_
  refine r_icmp_ge G (tgt := 40) dX0_init_18 (by decide) (fun c => absurd c (by decide)) (fun _ => ?_)
  refine r_aload_n G 0 rfl rfl dX0_init_21 ?_
  refine r_get G (C := RX0) (T := TX0) (N := 3) kX0_init_X0 0 rfl rfl 0 (by decide) mX0_init_f11 rfl rfl dX0_init_22 ?_
  refine r_iload_n G 1 rfl rfl dX0_init_25 ?_
  refine z_new G (C := RX2) (T := TX2) (N := 2) (ci := 2) (fs := [.long 0, .long 0]) kX0_init_X2 tyX2 tyX2_ok mX0_init_k9 mX0_init_inX2 mX0_init_iiX2 rfl (by decide) (Nat.le_of_ble_eq_true rfl) (Nat.le_of_ble_eq_true rfl) dX0_init_26 (fun a3 G => ?_)
  refine z_eq (w2 := [(q, .inr (0, [.ref a1, .null, .int 0])), cAR (κ 0) a1 7 [a2], cMS a2, cMS a3]) G rfl (fun G => ?_)
  refine r_dup G rfl dX0_init_29 ?_
  refine z_callI G (P := [(q, .inr (0, [.ref a1, .null, .int 0])), cAR (κ 0) a1 7 [a2], cMS a2]) (Q := []) (w0 := [cMS a3]) rfl [] (qX2_init hE ) gX0_init_X2_init rfl mX0_init_iiX2 mX0_init_l17 mX0_init_imX2 rfl hdX2_init ⟨(Nat.le_of_ble_eq_true rfl), (Nat.le_of_ble_eq_true rfl)⟩ (Nat.le_of_ble_eq_true rfl) rfl ⟨(Nat.le_of_ble_eq_true rfl), (Nat.le_of_ble_eq_true rfl)⟩ rfl rfl dX0_init_30 (fun w1 hw1 G => ?_)
  subst hw1
  refine z_eq (w2 := [(q, .inr (0, [.ref a1, .null, .int 0])), cAR (κ 0) a1 7 [a2], cMS a2, cMS a3]) G rfl (fun G => ?_)
  refine z_astq G 1 0 3 2 (f2 := fun k => ([a2, a3] : List Nat)[k]?) (ws2 := [(q, .inr (0, [.ref a1, .null, .int 0])), cAR (κ 0) a1 7 [a2, a3], cMS a2, cMS a3]) rfl rfl rfl rfl (vin_in (by decide)) (up_push [a2] a3) rfl dX0_init_33 (fun G => ?_)
  refine r_iinc G (j := 1) rfl (v := 2) (lv' := [(0, .ref q), (1, .int 2)]) (by decide) [1, 0] rfl (by decide) dX0_init_34 ?_
  refine r_goto G (tgt := 15) dX0_init_37 (by decide) ?_
  refine r_iload_n G 1 rfl rfl dX0_init_15 ?_
  refine r_bipush G (v := 7) (by decide) dX0_init_16 ?_
  refine r_icmp_ge G (tgt := 40) dX0_init_18 (by decide) (fun c => absurd c (by decide)) (fun _ => ?_)
  refine r_aload_n G 0 rfl rfl dX0_init_21 ?_
  refine r_get G (C := RX0) (T := TX0) (N := 3) kX0_init_X0 0 rfl rfl 0 (by decide) mX0_init_f11 rfl rfl dX0_init_22 ?_
  refine r_iload_n G 1 rfl rfl dX0_init_25 ?_
  refine z_new G (C := RX2) (T := TX2) (N := 2) (ci := 2) (fs := [.long 0, .long 0]) kX0_init_X2 tyX2 tyX2_ok mX0_init_k9 mX0_init_inX2 mX0_init_iiX2 rfl (by decide) (Nat.le_of_ble_eq_true rfl) (Nat.le_of_ble_eq_true rfl) dX0_init_26 (fun a4 G => ?_)
  refine z_eq (w2 := [(q, .inr (0, [.ref a1, .null, .int 0])), cAR (κ 0) a1 7 [a2, a3], cMS a2, cMS a3, cMS a4]) G rfl (fun G => ?_)
  refine r_dup G rfl dX0_init_29 ?_
  refine z_callI G (P := [(q, .inr (0, [.ref a1, .null, .int 0])), cAR (κ 0) a1 7 [a2, a3], cMS a2, cMS a3]) (Q := []) (w0 := [cMS a4]) rfl [] (qX2_init hE ) gX0_init_X2_init rfl mX0_init_iiX2 mX0_init_l17 mX0_init_imX2 rfl hdX2_init ⟨(Nat.le_of_ble_eq_true rfl), (Nat.le_of_ble_eq_true rfl)⟩ (Nat.le_of_ble_eq_true rfl) rfl ⟨(Nat.le_of_ble_eq_true rfl), (Nat.le_of_ble_eq_true rfl)⟩ rfl rfl dX0_init_30 (fun w1 hw1 G => ?_)
  subst hw1
  refine z_eq (w2 := [(q, .inr (0, [.ref a1, .null, .int 0])), cAR (κ 0) a1 7 [a2, a3], cMS a2, cMS a3, cMS a4]) G rfl (fun G => ?_)
  refine z_astq G 1 0 4 2 (f2 := fun k => ([a2, a3, a4] : List Nat)[k]?) (ws2 := [(q, .inr (0, [.ref a1, .null, .int 0])), cAR (κ 0) a1 7 [a2, a3, a4], cMS a2, cMS a3, cMS a4]) rfl rfl rfl rfl (vin_in (by decide)) (up_push [a2, a3] a4) rfl dX0_init_33 (fun G => ?_)
  refine r_iinc G (j := 1) rfl (v := 3) (lv' := [(0, .ref q), (1, .int 3)]) (by decide) [1, 0] rfl (by decide) dX0_init_34 ?_
  refine r_goto G (tgt := 15) dX0_init_37 (by decide) ?_
  refine r_iload_n G 1 rfl rfl dX0_init_15 ?_
  refine r_bipush G (v := 7) (by decide) dX0_init_16 ?_
  refine r_icmp_ge G (tgt := 40) dX0_init_18 (by decide) (fun c => absurd c (by decide)) (fun _ => ?_)
  refine r_aload_n G 0 rfl rfl dX0_init_21 ?_
  refine r_get G (C := RX0) (T := TX0) (N := 3) kX0_init_X0 0 rfl rfl 0 (by decide) mX0_init_f11 rfl rfl dX0_init_22 ?_
  refine r_iload_n G 1 rfl rfl dX0_init_25 ?_
  refine z_new G (C := RX2) (T := TX2) (N := 2) (ci := 2) (fs := [.long 0, .long 0]) kX0_init_X2 tyX2 tyX2_ok mX0_init_k9 mX0_init_inX2 mX0_init_iiX2 rfl (by decide) (Nat.le_of_ble_eq_true rfl) (Nat.le_of_ble_eq_true rfl) dX0_init_26 (fun a5 G => ?_)
  refine z_eq (w2 := [(q, .inr (0, [.ref a1, .null, .int 0])), cAR (κ 0) a1 7 [a2, a3, a4], cMS a2, cMS a3, cMS a4, cMS a5]) G rfl (fun G => ?_)
  refine r_dup G rfl dX0_init_29 ?_
  refine z_callI G (P := [(q, .inr (0, [.ref a1, .null, .int 0])), cAR (κ 0) a1 7 [a2, a3, a4], cMS a2, cMS a3, cMS a4]) (Q := []) (w0 := [cMS a5]) rfl [] (qX2_init hE ) gX0_init_X2_init rfl mX0_init_iiX2 mX0_init_l17 mX0_init_imX2 rfl hdX2_init ⟨(Nat.le_of_ble_eq_true rfl), (Nat.le_of_ble_eq_true rfl)⟩ (Nat.le_of_ble_eq_true rfl) rfl ⟨(Nat.le_of_ble_eq_true rfl), (Nat.le_of_ble_eq_true rfl)⟩ rfl rfl dX0_init_30 (fun w1 hw1 G => ?_)
  subst hw1
  refine z_eq (w2 := [(q, .inr (0, [.ref a1, .null, .int 0])), cAR (κ 0) a1 7 [a2, a3, a4], cMS a2, cMS a3, cMS a4, cMS a5]) G rfl (fun G => ?_)
  refine z_astq G 1 0 5 2 (f2 := fun k => ([a2, a3, a4, a5] : List Nat)[k]?) (ws2 := [(q, .inr (0, [.ref a1, .null, .int 0])), cAR (κ 0) a1 7 [a2, a3, a4, a5], cMS a2, cMS a3, cMS a4, cMS a5]) rfl rfl rfl rfl (vin_in (by decide)) (up_push [a2, a3, a4] a5) rfl dX0_init_33 (fun G => ?_)
  refine r_iinc G (j := 1) rfl (v := 4) (lv' := [(0, .ref q), (1, .int 4)]) (by decide) [1, 0] rfl (by decide) dX0_init_34 ?_
  refine r_goto G (tgt := 15) dX0_init_37 (by decide) ?_
  refine r_iload_n G 1 rfl rfl dX0_init_15 ?_
  refine r_bipush G (v := 7) (by decide) dX0_init_16 ?_
  refine r_icmp_ge G (tgt := 40) dX0_init_18 (by decide) (fun c => absurd c (by decide)) (fun _ => ?_)
  refine r_aload_n G 0 rfl rfl dX0_init_21 ?_
  refine r_get G (C := RX0) (T := TX0) (N := 3) kX0_init_X0 0 rfl rfl 0 (by decide) mX0_init_f11 rfl rfl dX0_init_22 ?_
  refine r_iload_n G 1 rfl rfl dX0_init_25 ?_
  refine z_new G (C := RX2) (T := TX2) (N := 2) (ci := 2) (fs := [.long 0, .long 0]) kX0_init_X2 tyX2 tyX2_ok mX0_init_k9 mX0_init_inX2 mX0_init_iiX2 rfl (by decide) (Nat.le_of_ble_eq_true rfl) (Nat.le_of_ble_eq_true rfl) dX0_init_26 (fun a6 G => ?_)
  refine z_eq (w2 := [(q, .inr (0, [.ref a1, .null, .int 0])), cAR (κ 0) a1 7 [a2, a3, a4, a5], cMS a2, cMS a3, cMS a4, cMS a5, cMS a6]) G rfl (fun G => ?_)
  refine r_dup G rfl dX0_init_29 ?_
  refine z_callI G (P := [(q, .inr (0, [.ref a1, .null, .int 0])), cAR (κ 0) a1 7 [a2, a3, a4, a5], cMS a2, cMS a3, cMS a4, cMS a5]) (Q := []) (w0 := [cMS a6]) rfl [] (qX2_init hE ) gX0_init_X2_init rfl mX0_init_iiX2 mX0_init_l17 mX0_init_imX2 rfl hdX2_init ⟨(Nat.le_of_ble_eq_true rfl), (Nat.le_of_ble_eq_true rfl)⟩ (Nat.le_of_ble_eq_true rfl) rfl ⟨(Nat.le_of_ble_eq_true rfl), (Nat.le_of_ble_eq_true rfl)⟩ rfl rfl dX0_init_30 (fun w1 hw1 G => ?_)
  subst hw1
  refine z_eq (w2 := [(q, .inr (0, [.ref a1, .null, .int 0])), cAR (κ 0) a1 7 [a2, a3, a4, a5], cMS a2, cMS a3, cMS a4, cMS a5, cMS a6]) G rfl (fun G => ?_)
  refine z_astq G 1 0 6 2 (f2 := fun k => ([a2, a3, a4, a5, a6] : List Nat)[k]?) (ws2 := [(q, .inr (0, [.ref a1, .null, .int 0])), cAR (κ 0) a1 7 [a2, a3, a4, a5, a6], cMS a2, cMS a3, cMS a4, cMS a5, cMS a6]) rfl rfl rfl rfl (vin_in (by decide)) (up_push [a2, a3, a4, a5] a6) rfl dX0_init_33 (fun G => ?_)
  refine r_iinc G (j := 1) rfl (v := 5) (lv' := [(0, .ref q), (1, .int 5)]) (by decide) [1, 0] rfl (by decide) dX0_init_34 ?_
  refine r_goto G (tgt := 15) dX0_init_37 (by decide) ?_
  refine r_iload_n G 1 rfl rfl dX0_init_15 ?_
  refine r_bipush G (v := 7) (by decide) dX0_init_16 ?_
  refine r_icmp_ge G (tgt := 40) dX0_init_18 (by decide) (fun c => absurd c (by decide)) (fun _ => ?_)
  refine r_aload_n G 0 rfl rfl dX0_init_21 ?_
  refine r_get G (C := RX0) (T := TX0) (N := 3) kX0_init_X0 0 rfl rfl 0 (by decide) mX0_init_f11 rfl rfl dX0_init_22 ?_
  refine r_iload_n G 1 rfl rfl dX0_init_25 ?_
  refine z_new G (C := RX2) (T := TX2) (N := 2) (ci := 2) (fs := [.long 0, .long 0]) kX0_init_X2 tyX2 tyX2_ok mX0_init_k9 mX0_init_inX2 mX0_init_iiX2 rfl (by decide) (Nat.le_of_ble_eq_true rfl) (Nat.le_of_ble_eq_true rfl) dX0_init_26 (fun a7 G => ?_)
  refine z_eq (w2 := [(q, .inr (0, [.ref a1, .null, .int 0])), cAR (κ 0) a1 7 [a2, a3, a4, a5, a6], cMS a2, cMS a3, cMS a4, cMS a5, cMS a6, cMS a7]) G rfl (fun G => ?_)
  refine r_dup G rfl dX0_init_29 ?_
  refine z_callI G (P := [(q, .inr (0, [.ref a1, .null, .int 0])), cAR (κ 0) a1 7 [a2, a3, a4, a5, a6], cMS a2, cMS a3, cMS a4, cMS a5, cMS a6]) (Q := []) (w0 := [cMS a7]) rfl [] (qX2_init hE ) gX0_init_X2_init rfl mX0_init_iiX2 mX0_init_l17 mX0_init_imX2 rfl hdX2_init ⟨(Nat.le_of_ble_eq_true rfl), (Nat.le_of_ble_eq_true rfl)⟩ (Nat.le_of_ble_eq_true rfl) rfl ⟨(Nat.le_of_ble_eq_true rfl), (Nat.le_of_ble_eq_true rfl)⟩ rfl rfl dX0_init_30 (fun w1 hw1 G => ?_)
  subst hw1
  refine z_eq (w2 := [(q, .inr (0, [.ref a1, .null, .int 0])), cAR (κ 0) a1 7 [a2, a3, a4, a5, a6], cMS a2, cMS a3, cMS a4, cMS a5, cMS a6, cMS a7]) G rfl (fun G => ?_)
  refine z_astq G 1 0 7 2 (f2 := fun k => ([a2, a3, a4, a5, a6, a7] : List Nat)[k]?) (ws2 := [(q, .inr (0, [.ref a1, .null, .int 0])), cAR (κ 0) a1 7 [a2, a3, a4, a5, a6, a7], cMS a2, cMS a3, cMS a4, cMS a5, cMS a6, cMS a7]) rfl rfl rfl rfl (vin_in (by decide)) (up_push [a2, a3, a4, a5, a6] a7) rfl dX0_init_33 (fun G => ?_)
  refine r_iinc G (j := 1) rfl (v := 6) (lv' := [(0, .ref q), (1, .int 6)]) (by decide) [1, 0] rfl (by decide) dX0_init_34 ?_
  refine r_goto G (tgt := 15) dX0_init_37 (by decide) ?_
  refine r_iload_n G 1 rfl rfl dX0_init_15 ?_
  refine r_bipush G (v := 7) (by decide) dX0_init_16 ?_
  refine r_icmp_ge G (tgt := 40) dX0_init_18 (by decide) (fun c => absurd c (by decide)) (fun _ => ?_)
  refine r_aload_n G 0 rfl rfl dX0_init_21 ?_
  refine r_get G (C := RX0) (T := TX0) (N := 3) kX0_init_X0 0 rfl rfl 0 (by decide) mX0_init_f11 rfl rfl dX0_init_22 ?_
  refine r_iload_n G 1 rfl rfl dX0_init_25 ?_
  refine z_new G (C := RX2) (T := TX2) (N := 2) (ci := 2) (fs := [.long 0, .long 0]) kX0_init_X2 tyX2 tyX2_ok mX0_init_k9 mX0_init_inX2 mX0_init_iiX2 rfl (by decide) (Nat.le_of_ble_eq_true rfl) (Nat.le_of_ble_eq_true rfl) dX0_init_26 (fun a8 G => ?_)
  refine z_eq (w2 := [(q, .inr (0, [.ref a1, .null, .int 0])), cAR (κ 0) a1 7 [a2, a3, a4, a5, a6, a7], cMS a2, cMS a3, cMS a4, cMS a5, cMS a6, cMS a7, cMS a8]) G rfl (fun G => ?_)
  refine r_dup G rfl dX0_init_29 ?_
  refine z_callI G (P := [(q, .inr (0, [.ref a1, .null, .int 0])), cAR (κ 0) a1 7 [a2, a3, a4, a5, a6, a7], cMS a2, cMS a3, cMS a4, cMS a5, cMS a6, cMS a7]) (Q := []) (w0 := [cMS a8]) rfl [] (qX2_init hE ) gX0_init_X2_init rfl mX0_init_iiX2 mX0_init_l17 mX0_init_imX2 rfl hdX2_init ⟨(Nat.le_of_ble_eq_true rfl), (Nat.le_of_ble_eq_true rfl)⟩ (Nat.le_of_ble_eq_true rfl) rfl ⟨(Nat.le_of_ble_eq_true rfl), (Nat.le_of_ble_eq_true rfl)⟩ rfl rfl dX0_init_30 (fun w1 hw1 G => ?_)
  subst hw1
  refine z_eq (w2 := [(q, .inr (0, [.ref a1, .null, .int 0])), cAR (κ 0) a1 7 [a2, a3, a4, a5, a6, a7], cMS a2, cMS a3, cMS a4, cMS a5, cMS a6, cMS a7, cMS a8]) G rfl (fun G => ?_)
  refine z_astq G 1 0 8 2 (f2 := fun k => ([a2, a3, a4, a5, a6, a7, a8] : List Nat)[k]?) (ws2 := [(q, .inr (0, [.ref a1, .null, .int 0])), cAR (κ 0) a1 7 [a2, a3, a4, a5, a6, a7, a8], cMS a2, cMS a3, cMS a4, cMS a5, cMS a6, cMS a7, cMS a8]) rfl rfl rfl rfl (vin_in (by decide)) (up_push [a2, a3, a4, a5, a6, a7] a8) rfl dX0_init_33 (fun G => ?_)
  refine r_iinc G (j := 1) rfl (v := 7) (lv' := [(0, .ref q), (1, .int 7)]) (by decide) [1, 0] rfl (by decide) dX0_init_34 ?_
  refine r_goto G (tgt := 15) dX0_init_37 (by decide) ?_
  refine r_iload_n G 1 rfl rfl dX0_init_15 ?_
  refine r_bipush G (v := 7) (by decide) dX0_init_16 ?_
  refine r_icmp_ge G (tgt := 40) dX0_init_18 (by decide) (fun _ => ?_) (fun c => absurd (by decide) c)
  refine r_aload_n G 0 rfl rfl dX0_init_40 ?_
  refine z_new G (C := RX2) (T := TX2) (N := 2) (ci := 2) (fs := [.long 0, .long 0]) kX0_init_X2 tyX2 tyX2_ok mX0_init_k9 mX0_init_inX2 mX0_init_iiX2 rfl (by decide) (Nat.le_of_ble_eq_true rfl) (Nat.le_of_ble_eq_true rfl) dX0_init_41 (fun a9 G => ?_)
  refine z_eq (w2 := [(q, .inr (0, [.ref a1, .null, .int 0])), cAR (κ 0) a1 7 [a2, a3, a4, a5, a6, a7, a8], cMS a2, cMS a3, cMS a4, cMS a5, cMS a6, cMS a7, cMS a8, cMS a9]) G rfl (fun G => ?_)
  refine r_dup G rfl dX0_init_44 ?_
  refine z_callI G (P := [(q, .inr (0, [.ref a1, .null, .int 0])), cAR (κ 0) a1 7 [a2, a3, a4, a5, a6, a7, a8], cMS a2, cMS a3, cMS a4, cMS a5, cMS a6, cMS a7, cMS a8]) (Q := []) (w0 := [cMS a9]) rfl [] (qX2_init hE ) gX0_init_X2_init rfl mX0_init_iiX2 mX0_init_l17 mX0_init_imX2 rfl hdX2_init ⟨(Nat.le_of_ble_eq_true rfl), (Nat.le_of_ble_eq_true rfl)⟩ (Nat.le_of_ble_eq_true rfl) rfl ⟨(Nat.le_of_ble_eq_true rfl), (Nat.le_of_ble_eq_true rfl)⟩ rfl rfl dX0_init_45 (fun w1 hw1 G => ?_)
  subst hw1
  refine z_eq (w2 := [(q, .inr (0, [.ref a1, .null, .int 0])), cAR (κ 0) a1 7 [a2, a3, a4, a5, a6, a7, a8], cMS a2, cMS a3, cMS a4, cMS a5, cMS a6, cMS a7, cMS a8, cMS a9]) G rfl (fun G => ?_)
  refine z_putF G (C := RX0) (T := TX0) (N := 3) (ws2 := [(q, .inr (0, [.ref a1, .ref a9, .int 0])), cAR (κ 0) a1 7 [a2, a3, a4, a5, a6, a7, a8], cMS a2, cMS a3, cMS a4, cMS a5, cMS a6, cMS a7, cMS a8, cMS a9]) kX0_init_X0 tyX0 tyX0_ok nmX0 hn 0 rfl rfl 1 (by decide) mX0_init_f18 rfl rfl rfl (tyX0_ok 1 (by decide)) rfl rfl (Nat.le_of_ble_eq_true rfl) rfl dX0_init_48 (fun G => ?_)
  refine r_aload_n G 0 rfl rfl dX0_init_51 ?_
  refine r_iconst G (v := 0) (by decide) dX0_init_52 ?_
  refine z_put G (C := RX0) (T := TX0) (N := 3) (ws2 := [(q, .inr (0, [.ref a1, .ref a9, .int 0])), cAR (κ 0) a1 7 [a2, a3, a4, a5, a6, a7, a8], cMS a2, cMS a3, cMS a4, cMS a5, cMS a6, cMS a7, cMS a8, cMS a9]) kX0_init_X0 tyX0 tyX0_ok nmX0 0 rfl rfl 2 (by decide) mX0_init_f22 rfl rfl (tyX0_ok 2 (by decide)) rfl rfl (Nat.le_of_ble_eq_true rfl) rfl dX0_init_53 (fun G => ?_)
  exact hret _ _ _ _ _ dX0_init_56 G ⟨a1, a2, a3, a4, a5, a6, a7, a8, a9, rfl⟩ (Nat.le_of_ble_eq_true rfl) (Nat.le_of_ble_eq_true rfl)
