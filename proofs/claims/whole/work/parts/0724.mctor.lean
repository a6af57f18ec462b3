/-! ===== the reference's constructor ===== -/
abbrev gW (cA cy : ClassId) (q : Nat) (r : Nat → Nat) (N K : Nat) : va_W := (q, .inl (cA, N, .inr (.inr (.inr (.inr (fun i => if i < N then some (r i) else none)))))) :: (List.range N).map (fun i => (r i, .inl (cy, K, .inl (fun _ => 0))))
theorem pl_rows {l : List Nat} {f : Nat → va_E} {e : va_E} : va_pl ([] ++ l) (vr_up f l e) = l.map (fun a => (a, e)) := by
  rw [List.nil_append]
  unfold va_pl
  apply List.map_congr_left
  intro a ha
  rw [vr_up_in ha]
section VZM
variable {σ : Type} {w : σ → va_W} {D : va_G} {tys : List (ClassId × FieldType)} {E : evT} {l : Launch} {Γ : cxT} {cc : ByteArray} {own : String} {Ts : List Cond} {nL : Nat} {R : Room} {st : σ} {cells slots pc : Nat} {lv : List (Nat × Value)} {rest : List Value}
theorem z_mna (G : Cx w D tys E l Γ cc own Ts nL R) {index N' K' : Nat} {n m : Int32} (t5 t4 : Nat) {cA cy : ClassId} (ht5 : tys[t5]? = some (cA, .array .boolean)) (ht4 : tys[t4]? = some (cy, .boolean)) (hcl : Cond.classLink own index "[[Z" ∈ Ts) (hover : va_AOA .boolean (xs Γ)) (harr : Cond.arrayClass .boolean ∈ Ts) (hn : ¬ n < 0) (hm : ¬ m < 0) (hN : n.toNatClampNeg = N') (hM : m.toNatClampNeg = K')
    (hb1 : N' * 4 ≤ 536870912) (hb2 : K' * componentBytes .boolean ≤ 536870912) (hb3 : K' ≤ 536870912) (hc : cells + (1 + N') ≤ R.cells) (hs : slots + (N' + N' * K') ≤ R.slots) (d : decode cc pc = .ok (.multianewarray index 2, 4))
    (k : ∀ (q : Nat) (r : Nat → Nat), Cx (kw (w st ++ gW cA cy q r N' K')) D tys E l Γ cc own Ts nL R → V (kw (w st ++ gW cA cy q r N' K')) D Γ () (cells + 1 + N') (slots + N' + N' * K') (pc + 4) lv (.ref q :: rest)) : V w D Γ st cells slots pc lv (.int m :: .int n :: rest) := by
  intro H locs ls hl hP hS
  have hP0 : va_P D vwCl (w st ++ va_pl [] (fun _ => .inl (cy, (0, .inl (fun _ => 0))))) H := by rw [show va_pl [] (fun _ => (.inl (cy, (0, .inl (fun _ => 0))) : va_E)) = [] from rfl, List.append_nil]; exact hP
  have hD0 : va_D (xA Γ) (w st ++ va_pl [] (fun _ => .inl (cy, (0, .inl (fun _ => 0))))) := by rw [show va_pl [] (fun _ => (.inl (cy, (0, .inl (fun _ => 0))) : va_E)) = [] from rfl, List.append_nil]; exact G.hD st
  have hcy : (xs Γ).vm.findClass (FieldType.array .boolean).toString = some cy := (G.K.2 t4 _ ht4).2
  refine va_mna (ty := .boolean) (z := (K', .inl (fun _ => 0))) G.hx G.hb G.ow (G.ts _ (by rw [show "[" ++ (FieldType.array .boolean).toString = "[[Z" from by decide]; exact hcl)) hover (G.ts _ harr) hcy G.K hP0 hD0 hS G.A hn hm hN hM hb1 hb2 hb3 rfl rfl (by rw [G.hR]; exact hc) (by rw [G.hR]; exact hs) (fun c => arrV_new c K' (.int 0)) d (fun q r cA' H1 hr hrL hK1 hP1 hD1 hS1 => ?_)
  have e : cA' = cA := by
    have h1 : (xs Γ).vm.findClass ("[" ++ (FieldType.array .boolean).toString) = some cA' := (hK1.2 tys.length (cA', .array .boolean) (by rw [List.getElem?_append_right (Nat.le_refl _), Nat.sub_self]; rfl)).2
    have h2 : (xs Γ).vm.findClass ("[" ++ (FieldType.array .boolean).toString) = some cA := (G.K.2 t5 _ ht5).2
    exact Option.some.inj (h1.symm.trans h2)
  subst e
  rw [pl_rows, List.map_map, List.append_assoc] at hP1 hD1
  exact k q r (G.world (fun _ => hD1)) H1 locs ls hl hP1 hS1
end VZM
set_option maxRecDepth 20000 in
theorem kX8_init_X8 : ∀ w ∈ u_ws RX8 TX8 19, w ∈ wsX8_init := by decide +kernel
set_option maxRecDepth 20000 in
theorem mX8_init_o1 : Cond.methodLink RX8 19 Lib.objectInit ∈ wsX8_init := by decide +kernel
set_option maxRecDepth 20000 in
theorem mX8_init_o2 : Cond.instanceMethod Lib.objectInit ∈ wsX8_init := by decide +kernel
set_option maxRecDepth 20000 in
theorem mX8_init_o3 : Cond.code Lib.objectInit ⟨#[0xb1]⟩ 1 none ∈ wsX8_init := by decide +kernel
set_option maxRecDepth 20000 in
theorem mX8_init_k25 : Cond.classLink RX8 25 "[[Z" ∈ wsX8_init := by decide +kernel
set_option maxRecDepth 20000 in
theorem mX8_init_aboolean : Cond.arrayClass .boolean ∈ wsX8_init := by decide +kernel
set_option maxRecDepth 20000 in
theorem mX8_init_f27 : Cond.fieldLink RX8 27 "SetCouncilModel" "sets" "[[Z" ∈ wsX8_init := by decide +kernel
set_option maxRecDepth 20000 in
theorem mX8_init_f30 : Cond.fieldLink RX8 30 "SetCouncilModel" "before" "[Z" ∈ wsX8_init := by decide +kernel
set_option maxRecDepth 20000 in
theorem mX8_init_f34 : Cond.fieldLink RX8 34 "SetCouncilModel" "kept" "[[Z" ∈ wsX8_init := by decide +kernel
set_option maxRecDepth 20000 in
theorem mX8_init_f37 : Cond.fieldLink RX8 37 "SetCouncilModel" "next" "[[Z" ∈ wsX8_init := by decide +kernel
set_option maxRecDepth 20000 in
theorem mX8_init_f40 : Cond.fieldLink RX8 40 "SetCouncilModel" "united" "[Z" ∈ wsX8_init := by decide +kernel
set_option maxRecDepth 20000 in
theorem mX8_init_aint : Cond.arrayClass .int ∈ wsX8_init := by decide +kernel
set_option maxRecDepth 20000 in
theorem mX8_init_f43 : Cond.fieldLink RX8 43 "SetCouncilModel" "text" "[I" ∈ wsX8_init := by decide +kernel
set_option maxRecDepth 20000 in
theorem mX8_init_f47 : Cond.fieldLink RX8 47 "SetCouncilModel" "pile" "[[Z" ∈ wsX8_init := by decide +kernel
set_option maxRecDepth 20000 in
theorem mX8_init_f50 : Cond.fieldLink RX8 50 "SetCouncilModel" "left" "[Z" ∈ wsX8_init := by decide +kernel
set_option maxRecDepth 20000 in
theorem mX8_init_f53 : Cond.fieldLink RX8 53 "SetCouncilModel" "right" "[Z" ∈ wsX8_init := by decide +kernel
set_option maxRecDepth 20000 in
theorem mX8_init_f56 : Cond.fieldLink RX8 56 "SetCouncilModel" "spare" "[Z" ∈ wsX8_init := by decide +kernel
set_option maxRecDepth 20000 in
theorem mX8_init_f59 : Cond.fieldLink RX8 59 "SetCouncilModel" "keptMany" "I" ∈ wsX8_init := by decide +kernel
abbrev rmX8_init : Room := { frames := 1, cells := 72, slots := 7096, locals := 20 }
set_option maxHeartbeats 4000000 in
set_option maxRecDepth 100000 in
theorem qX8_init {E : evT} {l : Launch} {D : va_G} {κ : Nat → ClassId} {q : Nat} (hE : EvOk E) (hA : AOk E) : Cz l yX8_init wsX8_init rmX8_init E D (tyA κ) [.ref q] [(q, .inr (8, [.int 0, .null, .null, .null, .null, .int 0, .int 0, .null, .null, .int 0, .null, .int 0, .int 0, .int 0, .int 0, .int 0, .null, .null, .null]))] (fun w1 => ∃ a1 : Nat, ∃ r1 : Nat → Nat, ∃ a2 : Nat, ∃ a3 : Nat, ∃ r3 : Nat → Nat, ∃ a4 : Nat, ∃ r4 : Nat → Nat, ∃ a5 : Nat, ∃ a6 : Nat, ∃ a7 : Nat, ∃ r7 : Nat → Nat, ∃ a8 : Nat, ∃ a9 : Nat, ∃ a10 : Nat, w1 = (q, .inr (8, [.int 0, .ref a1, .ref a2, .ref a3, .ref a4, .int 0, .int 0, .ref a5, .ref a6, .int 0, .ref a7, .int 0, .int 0, .int 0, .int 0, .int 0, .ref a8, .ref a9, .ref a10])) :: (((((((((gW (κ 5) (κ 4) a1 r1 8 102 ++ [cIA (κ 4) a2 102]) ++ gW (κ 5) (κ 4) a3 r3 7 102) ++ gW (κ 5) (κ 4) a4 r4 7 102) ++ [cIA (κ 4) a5 102]) ++ [cIA (κ 3) a6 200]) ++ gW (κ 5) (κ 4) a7 r7 40 102) ++ [cIA (κ 4) a8 102]) ++ [cIA (κ 4) a9 102]) ++ [cIA (κ 4) a10 102])) := by
  refine s_z (cc := cX8_init) (nL := 1) (own := RX8) hE (by decide) rfl rfl rfl (Nat.le_of_ble_eq_true rfl) (fun Γ G hn hret => ?_)
  refine r_aload_n G 0 rfl rfl dX8_init_0 ?_
  refine r_objInit G mX8_init_o1 mX8_init_o2 mX8_init_o3 (Nat.le_of_ble_eq_true rfl) (Nat.le_of_ble_eq_true rfl) dX8_init_1 ?_
  refine r_aload_n G 0 rfl rfl dX8_init_4 ?_
  refine r_bipush G (v := 8) (by decide) dX8_init_5 ?_
  refine r_bipush G (v := 102) (by decide) dX8_init_7 ?_
  refine z_mna G (N' := 8) (K' := 102) 5 4 (cA := κ 5) (cy := κ 4) rfl rfl mX8_init_k25 (hA _ _ _ G.ev).2.2 mX8_init_aboolean (by decide) (by decide) rfl rfl (Nat.le_of_ble_eq_true rfl) (Nat.le_of_ble_eq_true rfl) (Nat.le_of_ble_eq_true rfl) (Nat.le_of_ble_eq_true rfl) (Nat.le_of_ble_eq_true rfl) dX8_init_9 (fun a1 r1 G => ?_)
  refine z_eq (w2 := (q, .inr (8, [.int 0, .null, .null, .null, .null, .int 0, .int 0, .null, .null, .int 0, .null, .int 0, .int 0, .int 0, .int 0, .int 0, .null, .null, .null])) :: gW (κ 5) (κ 4) a1 r1 8 102) G rfl (fun G => ?_)
  refine z_putF G (C := RX8) (T := TX8) (N := 19) (ws2 := (q, .inr (8, [.int 0, .ref a1, .null, .null, .null, .int 0, .int 0, .null, .null, .int 0, .null, .int 0, .int 0, .int 0, .int 0, .int 0, .null, .null, .null])) :: gW (κ 5) (κ 4) a1 r1 8 102) kX8_init_X8 tyX8 tyX8_ok nmX8 hn 0 rfl rfl 1 (by decide) mX8_init_f27 rfl rfl rfl (tyX8_ok 1 (by decide)) rfl rfl (Nat.le_of_ble_eq_true rfl) rfl dX8_init_13 (fun G => ?_)
  refine r_aload_n G 0 rfl rfl dX8_init_16 ?_
  refine r_bipush G (v := 102) (by decide) dX8_init_17 ?_
  refine z_newa G (N' := 102) (atype := .boolean) (ty := .boolean) rfl 4 (cA := κ 4) rfl (fun _ _ h => h) rfl mX8_init_aboolean (by decide) rfl (Nat.le_of_ble_eq_true rfl) (Nat.le_of_ble_eq_true rfl) (Nat.le_of_ble_eq_true rfl) dX8_init_19 (fun a2 G => ?_)
  refine z_eq (w2 := (q, .inr (8, [.int 0, .ref a1, .null, .null, .null, .int 0, .int 0, .null, .null, .int 0, .null, .int 0, .int 0, .int 0, .int 0, .int 0, .null, .null, .null])) :: (gW (κ 5) (κ 4) a1 r1 8 102 ++ [cIA (κ 4) a2 102])) G rfl (fun G => ?_)
  refine z_putF G (C := RX8) (T := TX8) (N := 19) (ws2 := (q, .inr (8, [.int 0, .ref a1, .ref a2, .null, .null, .int 0, .int 0, .null, .null, .int 0, .null, .int 0, .int 0, .int 0, .int 0, .int 0, .null, .null, .null])) :: (gW (κ 5) (κ 4) a1 r1 8 102 ++ [cIA (κ 4) a2 102])) kX8_init_X8 tyX8 tyX8_ok nmX8 hn 0 rfl rfl 2 (by decide) mX8_init_f30 rfl rfl rfl (tyX8_ok 2 (by decide)) rfl rfl (Nat.le_of_ble_eq_true rfl) rfl dX8_init_21 (fun G => ?_)
  refine r_aload_n G 0 rfl rfl dX8_init_24 ?_
  refine r_bipush G (v := 7) (by decide) dX8_init_25 ?_
  refine r_bipush G (v := 102) (by decide) dX8_init_27 ?_
  refine z_mna G (N' := 7) (K' := 102) 5 4 (cA := κ 5) (cy := κ 4) rfl rfl mX8_init_k25 (hA _ _ _ G.ev).2.2 mX8_init_aboolean (by decide) (by decide) rfl rfl (Nat.le_of_ble_eq_true rfl) (Nat.le_of_ble_eq_true rfl) (Nat.le_of_ble_eq_true rfl) (Nat.le_of_ble_eq_true rfl) (Nat.le_of_ble_eq_true rfl) dX8_init_29 (fun a3 r3 G => ?_)
  refine z_eq (w2 := (q, .inr (8, [.int 0, .ref a1, .ref a2, .null, .null, .int 0, .int 0, .null, .null, .int 0, .null, .int 0, .int 0, .int 0, .int 0, .int 0, .null, .null, .null])) :: ((gW (κ 5) (κ 4) a1 r1 8 102 ++ [cIA (κ 4) a2 102]) ++ gW (κ 5) (κ 4) a3 r3 7 102)) G rfl (fun G => ?_)
  refine z_put G (C := RX8) (T := TX8) (N := 19) (ws2 := (q, .inr (8, [.int 0, .ref a1, .ref a2, .ref a3, .null, .int 0, .int 0, .null, .null, .int 0, .null, .int 0, .int 0, .int 0, .int 0, .int 0, .null, .null, .null])) :: ((gW (κ 5) (κ 4) a1 r1 8 102 ++ [cIA (κ 4) a2 102]) ++ gW (κ 5) (κ 4) a3 r3 7 102)) kX8_init_X8 tyX8 tyX8_ok nmX8 0 rfl rfl 3 (by decide) mX8_init_f34 rfl rfl (tyX8_ok 3 (by decide)) rfl rfl (Nat.le_of_ble_eq_true rfl) rfl dX8_init_33 (fun G => ?_)
  refine r_aload_n G 0 rfl rfl dX8_init_36 ?_
  refine r_bipush G (v := 7) (by decide) dX8_init_37 ?_
  refine r_bipush G (v := 102) (by decide) dX8_init_39 ?_
  refine z_mna G (N' := 7) (K' := 102) 5 4 (cA := κ 5) (cy := κ 4) rfl rfl mX8_init_k25 (hA _ _ _ G.ev).2.2 mX8_init_aboolean (by decide) (by decide) rfl rfl (Nat.le_of_ble_eq_true rfl) (Nat.le_of_ble_eq_true rfl) (Nat.le_of_ble_eq_true rfl) (Nat.le_of_ble_eq_true rfl) (Nat.le_of_ble_eq_true rfl) dX8_init_41 (fun a4 r4 G => ?_)
  refine z_eq (w2 := (q, .inr (8, [.int 0, .ref a1, .ref a2, .ref a3, .null, .int 0, .int 0, .null, .null, .int 0, .null, .int 0, .int 0, .int 0, .int 0, .int 0, .null, .null, .null])) :: (((gW (κ 5) (κ 4) a1 r1 8 102 ++ [cIA (κ 4) a2 102]) ++ gW (κ 5) (κ 4) a3 r3 7 102) ++ gW (κ 5) (κ 4) a4 r4 7 102)) G rfl (fun G => ?_)
  refine z_put G (C := RX8) (T := TX8) (N := 19) (ws2 := (q, .inr (8, [.int 0, .ref a1, .ref a2, .ref a3, .ref a4, .int 0, .int 0, .null, .null, .int 0, .null, .int 0, .int 0, .int 0, .int 0, .int 0, .null, .null, .null])) :: (((gW (κ 5) (κ 4) a1 r1 8 102 ++ [cIA (κ 4) a2 102]) ++ gW (κ 5) (κ 4) a3 r3 7 102) ++ gW (κ 5) (κ 4) a4 r4 7 102)) kX8_init_X8 tyX8 tyX8_ok nmX8 0 rfl rfl 4 (by decide) mX8_init_f37 rfl rfl (tyX8_ok 4 (by decide)) rfl rfl (Nat.le_of_ble_eq_true rfl) rfl dX8_init_45 (fun G => ?_)
  refine r_aload_n G 0 rfl rfl dX8_init_48 ?_
  refine r_bipush G (v := 102) (by decide) dX8_init_49 ?_
  refine z_newa G (N' := 102) (atype := .boolean) (ty := .boolean) rfl 4 (cA := κ 4) rfl (fun _ _ h => h) rfl mX8_init_aboolean (by decide) rfl (Nat.le_of_ble_eq_true rfl) (Nat.le_of_ble_eq_true rfl) (Nat.le_of_ble_eq_true rfl) dX8_init_51 (fun a5 G => ?_)
  refine z_eq (w2 := (q, .inr (8, [.int 0, .ref a1, .ref a2, .ref a3, .ref a4, .int 0, .int 0, .null, .null, .int 0, .null, .int 0, .int 0, .int 0, .int 0, .int 0, .null, .null, .null])) :: ((((gW (κ 5) (κ 4) a1 r1 8 102 ++ [cIA (κ 4) a2 102]) ++ gW (κ 5) (κ 4) a3 r3 7 102) ++ gW (κ 5) (κ 4) a4 r4 7 102) ++ [cIA (κ 4) a5 102])) G rfl (fun G => ?_)
  refine z_putF G (C := RX8) (T := TX8) (N := 19) (ws2 := (q, .inr (8, [.int 0, .ref a1, .ref a2, .ref a3, .ref a4, .int 0, .int 0, .ref a5, .null, .int 0, .null, .int 0, .int 0, .int 0, .int 0, .int 0, .null, .null, .null])) :: ((((gW (κ 5) (κ 4) a1 r1 8 102 ++ [cIA (κ 4) a2 102]) ++ gW (κ 5) (κ 4) a3 r3 7 102) ++ gW (κ 5) (κ 4) a4 r4 7 102) ++ [cIA (κ 4) a5 102])) kX8_init_X8 tyX8 tyX8_ok nmX8 hn 0 rfl rfl 7 (by decide) mX8_init_f40 rfl rfl rfl (tyX8_ok 7 (by decide)) rfl rfl (Nat.le_of_ble_eq_true rfl) rfl dX8_init_53 (fun G => ?_)
  refine r_aload_n G 0 rfl rfl dX8_init_56 ?_
  refine r_sipush G (v := 200) (by decide) dX8_init_57 ?_
  refine z_newa G (N' := 200) (atype := .int) (ty := .int) rfl 3 (cA := κ 3) rfl (fun _ _ h => h) rfl mX8_init_aint (by decide) rfl (Nat.le_of_ble_eq_true rfl) (Nat.le_of_ble_eq_true rfl) (Nat.le_of_ble_eq_true rfl) dX8_init_60 (fun a6 G => ?_)
  refine z_eq (w2 := (q, .inr (8, [.int 0, .ref a1, .ref a2, .ref a3, .ref a4, .int 0, .int 0, .ref a5, .null, .int 0, .null, .int 0, .int 0, .int 0, .int 0, .int 0, .null, .null, .null])) :: (((((gW (κ 5) (κ 4) a1 r1 8 102 ++ [cIA (κ 4) a2 102]) ++ gW (κ 5) (κ 4) a3 r3 7 102) ++ gW (κ 5) (κ 4) a4 r4 7 102) ++ [cIA (κ 4) a5 102]) ++ [cIA (κ 3) a6 200])) G rfl (fun G => ?_)
  refine z_putF G (C := RX8) (T := TX8) (N := 19) (ws2 := (q, .inr (8, [.int 0, .ref a1, .ref a2, .ref a3, .ref a4, .int 0, .int 0, .ref a5, .ref a6, .int 0, .null, .int 0, .int 0, .int 0, .int 0, .int 0, .null, .null, .null])) :: (((((gW (κ 5) (κ 4) a1 r1 8 102 ++ [cIA (κ 4) a2 102]) ++ gW (κ 5) (κ 4) a3 r3 7 102) ++ gW (κ 5) (κ 4) a4 r4 7 102) ++ [cIA (κ 4) a5 102]) ++ [cIA (κ 3) a6 200])) kX8_init_X8 tyX8 tyX8_ok nmX8 hn 0 rfl rfl 8 (by decide) mX8_init_f43 rfl rfl rfl (tyX8_ok 8 (by decide)) rfl rfl (Nat.le_of_ble_eq_true rfl) rfl dX8_init_62 (fun G => ?_)
  refine r_aload_n G 0 rfl rfl dX8_init_65 ?_
  refine r_bipush G (v := 40) (by decide) dX8_init_66 ?_
  refine r_bipush G (v := 102) (by decide) dX8_init_68 ?_
  refine z_mna G (N' := 40) (K' := 102) 5 4 (cA := κ 5) (cy := κ 4) rfl rfl mX8_init_k25 (hA _ _ _ G.ev).2.2 mX8_init_aboolean (by decide) (by decide) rfl rfl (Nat.le_of_ble_eq_true rfl) (Nat.le_of_ble_eq_true rfl) (Nat.le_of_ble_eq_true rfl) (Nat.le_of_ble_eq_true rfl) (Nat.le_of_ble_eq_true rfl) dX8_init_70 (fun a7 r7 G => ?_)
  refine z_eq (w2 := (q, .inr (8, [.int 0, .ref a1, .ref a2, .ref a3, .ref a4, .int 0, .int 0, .ref a5, .ref a6, .int 0, .null, .int 0, .int 0, .int 0, .int 0, .int 0, .null, .null, .null])) :: ((((((gW (κ 5) (κ 4) a1 r1 8 102 ++ [cIA (κ 4) a2 102]) ++ gW (κ 5) (κ 4) a3 r3 7 102) ++ gW (κ 5) (κ 4) a4 r4 7 102) ++ [cIA (κ 4) a5 102]) ++ [cIA (κ 3) a6 200]) ++ gW (κ 5) (κ 4) a7 r7 40 102)) G rfl (fun G => ?_)
  refine z_putF G (C := RX8) (T := TX8) (N := 19) (ws2 := (q, .inr (8, [.int 0, .ref a1, .ref a2, .ref a3, .ref a4, .int 0, .int 0, .ref a5, .ref a6, .int 0, .ref a7, .int 0, .int 0, .int 0, .int 0, .int 0, .null, .null, .null])) :: ((((((gW (κ 5) (κ 4) a1 r1 8 102 ++ [cIA (κ 4) a2 102]) ++ gW (κ 5) (κ 4) a3 r3 7 102) ++ gW (κ 5) (κ 4) a4 r4 7 102) ++ [cIA (κ 4) a5 102]) ++ [cIA (κ 3) a6 200]) ++ gW (κ 5) (κ 4) a7 r7 40 102)) kX8_init_X8 tyX8 tyX8_ok nmX8 hn 0 rfl rfl 10 (by decide) mX8_init_f47 rfl rfl rfl (tyX8_ok 10 (by decide)) rfl rfl (Nat.le_of_ble_eq_true rfl) rfl dX8_init_74 (fun G => ?_)
  refine r_aload_n G 0 rfl rfl dX8_init_77 ?_
  refine r_bipush G (v := 102) (by decide) dX8_init_78 ?_
  refine z_newa G (N' := 102) (atype := .boolean) (ty := .boolean) rfl 4 (cA := κ 4) rfl (fun _ _ h => h) rfl mX8_init_aboolean (by decide) rfl (Nat.le_of_ble_eq_true rfl) (Nat.le_of_ble_eq_true rfl) (Nat.le_of_ble_eq_true rfl) dX8_init_80 (fun a8 G => ?_)
  refine z_eq (w2 := (q, .inr (8, [.int 0, .ref a1, .ref a2, .ref a3, .ref a4, .int 0, .int 0, .ref a5, .ref a6, .int 0, .ref a7, .int 0, .int 0, .int 0, .int 0, .int 0, .null, .null, .null])) :: (((((((gW (κ 5) (κ 4) a1 r1 8 102 ++ [cIA (κ 4) a2 102]) ++ gW (κ 5) (κ 4) a3 r3 7 102) ++ gW (κ 5) (κ 4) a4 r4 7 102) ++ [cIA (κ 4) a5 102]) ++ [cIA (κ 3) a6 200]) ++ gW (κ 5) (κ 4) a7 r7 40 102) ++ [cIA (κ 4) a8 102])) G rfl (fun G => ?_)
  refine z_putF G (C := RX8) (T := TX8) (N := 19) (ws2 := (q, .inr (8, [.int 0, .ref a1, .ref a2, .ref a3, .ref a4, .int 0, .int 0, .ref a5, .ref a6, .int 0, .ref a7, .int 0, .int 0, .int 0, .int 0, .int 0, .ref a8, .null, .null])) :: (((((((gW (κ 5) (κ 4) a1 r1 8 102 ++ [cIA (κ 4) a2 102]) ++ gW (κ 5) (κ 4) a3 r3 7 102) ++ gW (κ 5) (κ 4) a4 r4 7 102) ++ [cIA (κ 4) a5 102]) ++ [cIA (κ 3) a6 200]) ++ gW (κ 5) (κ 4) a7 r7 40 102) ++ [cIA (κ 4) a8 102])) kX8_init_X8 tyX8 tyX8_ok nmX8 hn 0 rfl rfl 16 (by decide) mX8_init_f50 rfl rfl rfl (tyX8_ok 16 (by decide)) rfl rfl (Nat.le_of_ble_eq_true rfl) rfl dX8_init_82 (fun G => ?_)
  refine r_aload_n G 0 rfl rfl dX8_init_85 ?_
  refine r_bipush G (v := 102) (by decide) dX8_init_86 ?_
  refine z_newa G (N' := 102) (atype := .boolean) (ty := .boolean) rfl 4 (cA := κ 4) rfl (fun _ _ h => h) rfl mX8_init_aboolean (by decide) rfl (Nat.le_of_ble_eq_true rfl) (Nat.le_of_ble_eq_true rfl) (Nat.le_of_ble_eq_true rfl) dX8_init_88 (fun a9 G => ?_)
  refine z_eq (w2 := (q, .inr (8, [.int 0, .ref a1, .ref a2, .ref a3, .ref a4, .int 0, .int 0, .ref a5, .ref a6, .int 0, .ref a7, .int 0, .int 0, .int 0, .int 0, .int 0, .ref a8, .null, .null])) :: ((((((((gW (κ 5) (κ 4) a1 r1 8 102 ++ [cIA (κ 4) a2 102]) ++ gW (κ 5) (κ 4) a3 r3 7 102) ++ gW (κ 5) (κ 4) a4 r4 7 102) ++ [cIA (κ 4) a5 102]) ++ [cIA (κ 3) a6 200]) ++ gW (κ 5) (κ 4) a7 r7 40 102) ++ [cIA (κ 4) a8 102]) ++ [cIA (κ 4) a9 102])) G rfl (fun G => ?_)
  refine z_putF G (C := RX8) (T := TX8) (N := 19) (ws2 := (q, .inr (8, [.int 0, .ref a1, .ref a2, .ref a3, .ref a4, .int 0, .int 0, .ref a5, .ref a6, .int 0, .ref a7, .int 0, .int 0, .int 0, .int 0, .int 0, .ref a8, .ref a9, .null])) :: ((((((((gW (κ 5) (κ 4) a1 r1 8 102 ++ [cIA (κ 4) a2 102]) ++ gW (κ 5) (κ 4) a3 r3 7 102) ++ gW (κ 5) (κ 4) a4 r4 7 102) ++ [cIA (κ 4) a5 102]) ++ [cIA (κ 3) a6 200]) ++ gW (κ 5) (κ 4) a7 r7 40 102) ++ [cIA (κ 4) a8 102]) ++ [cIA (κ 4) a9 102])) kX8_init_X8 tyX8 tyX8_ok nmX8 hn 0 rfl rfl 17 (by decide) mX8_init_f53 rfl rfl rfl (tyX8_ok 17 (by decide)) rfl rfl (Nat.le_of_ble_eq_true rfl) rfl dX8_init_90 (fun G => ?_)
  refine r_aload_n G 0 rfl rfl dX8_init_93 ?_
  refine r_bipush G (v := 102) (by decide) dX8_init_94 ?_
  refine z_newa G (N' := 102) (atype := .boolean) (ty := .boolean) rfl 4 (cA := κ 4) rfl (fun _ _ h => h) rfl mX8_init_aboolean (by decide) rfl (Nat.le_of_ble_eq_true rfl) (Nat.le_of_ble_eq_true rfl) (Nat.le_of_ble_eq_true rfl) dX8_init_96 (fun a10 G => ?_)
  refine z_eq (w2 := (q, .inr (8, [.int 0, .ref a1, .ref a2, .ref a3, .ref a4, .int 0, .int 0, .ref a5, .ref a6, .int 0, .ref a7, .int 0, .int 0, .int 0, .int 0, .int 0, .ref a8, .ref a9, .null])) :: (((((((((gW (κ 5) (κ 4) a1 r1 8 102 ++ [cIA (κ 4) a2 102]) ++ gW (κ 5) (κ 4) a3 r3 7 102) ++ gW (κ 5) (κ 4) a4 r4 7 102) ++ [cIA (κ 4) a5 102]) ++ [cIA (κ 3) a6 200]) ++ gW (κ 5) (κ 4) a7 r7 40 102) ++ [cIA (κ 4) a8 102]) ++ [cIA (κ 4) a9 102]) ++ [cIA (κ 4) a10 102])) G rfl (fun G => ?_)
  refine z_putF G (C := RX8) (T := TX8) (N := 19) (ws2 := (q, .inr (8, [.int 0, .ref a1, .ref a2, .ref a3, .ref a4, .int 0, .int 0, .ref a5, .ref a6, .int 0, .ref a7, .int 0, .int 0, .int 0, .int 0, .int 0, .ref a8, .ref a9, .ref a10])) :: (((((((((gW (κ 5) (κ 4) a1 r1 8 102 ++ [cIA (κ 4) a2 102]) ++ gW (κ 5) (κ 4) a3 r3 7 102) ++ gW (κ 5) (κ 4) a4 r4 7 102) ++ [cIA (κ 4) a5 102]) ++ [cIA (κ 3) a6 200]) ++ gW (κ 5) (κ 4) a7 r7 40 102) ++ [cIA (κ 4) a8 102]) ++ [cIA (κ 4) a9 102]) ++ [cIA (κ 4) a10 102])) kX8_init_X8 tyX8 tyX8_ok nmX8 hn 0 rfl rfl 18 (by decide) mX8_init_f56 rfl rfl rfl (tyX8_ok 18 (by decide)) rfl rfl (Nat.le_of_ble_eq_true rfl) rfl dX8_init_98 (fun G => ?_)
  refine r_aload_n G 0 rfl rfl dX8_init_101 ?_
  refine r_iconst G (v := 0) (by decide) dX8_init_102 ?_
  refine z_put G (C := RX8) (T := TX8) (N := 19) (ws2 := (q, .inr (8, [.int 0, .ref a1, .ref a2, .ref a3, .ref a4, .int 0, .int 0, .ref a5, .ref a6, .int 0, .ref a7, .int 0, .int 0, .int 0, .int 0, .int 0, .ref a8, .ref a9, .ref a10])) :: (((((((((gW (κ 5) (κ 4) a1 r1 8 102 ++ [cIA (κ 4) a2 102]) ++ gW (κ 5) (κ 4) a3 r3 7 102) ++ gW (κ 5) (κ 4) a4 r4 7 102) ++ [cIA (κ 4) a5 102]) ++ [cIA (κ 3) a6 200]) ++ gW (κ 5) (κ 4) a7 r7 40 102) ++ [cIA (κ 4) a8 102]) ++ [cIA (κ 4) a9 102]) ++ [cIA (κ 4) a10 102])) kX8_init_X8 tyX8 tyX8_ok nmX8 0 rfl rfl 5 (by decide) mX8_init_f59 rfl rfl (tyX8_ok 5 (by decide)) rfl rfl (Nat.le_of_ble_eq_true rfl) rfl dX8_init_103 (fun G => ?_)
  exact hret _ _ _ _ _ dX8_init_106 G ⟨a1, r1, a2, a3, r3, a4, r4, a5, a6, a7, r7, a8, a9, a10, rfl⟩ (Nat.le_of_ble_eq_true rfl) (Nat.le_of_ble_eq_true rfl)
