/-! ===== the start: statics, texts, the tables of the classes ===== -/
def FL : List Cond := flatC (Jvm.Cond.and given_1 narrow_1)
def tmS : Nat → Term := fun i => .string RX7 (208 + 2 * i)
abbrev vlS (i : Nat) : Term := .field (tmS i) "java/lang/String" "value" "[B"
abbrev elS (i j : Nat) : Cond := Cond.eq (.elem (vlS i) (.int (Int32.ofNat j))) (.int ((sbyt.getD i []).getD j 0))
theorem sx_ex : ∀ i, i < 3 → Cond.exactly (tmS i) "java/lang/String" ∈ FL := by decide +kernel
theorem sx_co : ∀ i, i < 3 → Cond.eq (.field (tmS i) "java/lang/String" "coder" "B") (.int 0) ∈ FL := by decide +kernel
theorem sx_ar : ∀ i, i < 3 → Cond.arrayOf (vlS i) .byte ∈ FL := by decide +kernel
theorem sx_le : ∀ i, i < 3 → Cond.eq (.length (vlS i)) (.int (Int32.ofNat (slen.getD i 0))) ∈ FL := by decide +kernel
theorem sx_ne : ∀ i, i < 3 → ∀ j, j < 3 → i ≠ j → Cond.not (Cond.eq (tmS i) (tmS j)) ∈ FL ∨ Cond.not (Cond.eq (tmS j) (tmS i)) ∈ FL := by decide +kernel
theorem sx_e0 : (FL.drop 362).take 147 = (List.range 147).map (elS 0) := by decide +kernel
theorem sx_e1 : (FL.drop 522).take 86 = (List.range 86).map (elS 1) := by decide +kernel
theorem sx_e2 : (FL.drop 622).take 65 = (List.range 65).map (elS 2) := by decide +kernel
theorem sx_in {a n i : Nat} (h : (FL.drop a).take n = (List.range n).map (elS i)) {j : Nat} (hj : j < n) : elS i j ∈ FL :=
  List.mem_of_mem_drop (List.mem_of_mem_take (by rw [h]; exact List.mem_map_of_mem (List.mem_range.mpr hj)))
theorem sx_el : ∀ i, i < 3 → ∀ j, j < slen.getD i 0 → elS i j ∈ FL := by
  intro i hi j hj
  match i, hi, hj with
  | 0, _, hj => exact sx_in sx_e0 hj
  | 1, _, hj => exact sx_in sx_e1 hj
  | 2, _, hj => exact sx_in sx_e2 hj
  | k + 3, hi, _ => exact absurd hi (by omega)
theorem sx_q0 : Cond.eq (.string RX7 208) (.string RX8 144) ∈ FL := by decide +kernel
theorem sx_q1 : Cond.eq (.string RX7 210) (.string RX8 146) ∈ FL := by decide +kernel
theorem sx_q2 : Cond.eq (.string RX7 212) (.string RX8 148) ∈ FL := by decide +kernel
theorem thS_tbl : ∀ q ∈ thS, Cond.stringRef q.1 q.2.1 q.2.2 ∈ lw_tbl := by decide +kernel
theorem thS_ex : ∀ q ∈ thS, Cond.exactly (.string q.1 q.2.1) "java/lang/String" ∈ FL := by decide +kernel
theorem thB_tbl : ∀ w ∈ thB, w ∈ lw_tbl := by decide +kernel
theorem sr_70 : Cond.stringRef RX7 208 "a = { -9 .. 9 }; b = { 0 .. 30, # }; c = { -30 .. 3 }; d = a & b | c; e = (a | c) & (b | c); f = a - (b | c); g = (a - b) & (a - c); h = a ^ b ^ c;" ∈ lw_tbl := by decide +kernel
theorem sr_80 : Cond.stringRef RX8 144 "a = { -9 .. 9 }; b = { 0 .. 30, # }; c = { -30 .. 3 }; d = a & b | c; e = (a | c) & (b | c); f = a - (b | c); g = (a - b) & (a - c); h = a ^ b ^ c;" ∈ lw_tbl := by decide +kernel
theorem sr_71 : Cond.stringRef RX7 210 "a={1..10}-{5};b={#,-50..-40,7};c=a^b;d=c^a;e=(a|b)-(a&b);f={};g=f|{#};h=(((b&a)|d)-g);" ∈ lw_tbl := by decide +kernel
theorem sr_81 : Cond.stringRef RX8 146 "a={1..10}-{5};b={#,-50..-40,7};c=a^b;d=c^a;e=(a|b)-(a&b);f={};g=f|{#};h=(((b&a)|d)-g);" ∈ lw_tbl := by decide +kernel
theorem sr_72 : Cond.stringRef RX7 212 "a={0,2,4,6,8};b={0,3,6,9};c=a&b;d=a|b;e={0..9};f=e-a;g=e-b;h=f&g;" ∈ lw_tbl := by decide +kernel
theorem sr_82 : Cond.stringRef RX8 148 "a={0,2,4,6,8};b={0,3,6,9};c=a&b;d=a|b;e={0..9};f=e-a;g=e-b;h=f&g;" ∈ lw_tbl := by decide +kernel
theorem st_l1 : Cond.laysStatic Bundle.tN "UNASSIGNED_STACK" Bundle.steD ∈ lw_tbl := by decide +kernel
theorem st_l2 : Cond.laysStatic Bundle.tN "SUPPRESSED_SENTINEL" Bundle.listD ∈ lw_tbl := by decide +kernel
theorem st_l3 : Cond.laysStatic "java/lang/String" "COMPACT_STRINGS" "Z" ∈ lw_tbl := by decide +kernel
theorem st_l4 : Cond.laysStatic "jdk/internal/util/Preconditions" "SIOOBE_FORMATTER" "Ljava/util/function/BiFunction;" ∈ lw_tbl := by decide +kernel
theorem st_i1 : Cond.initialized Bundle.tN ∈ lw_tbl := by decide +kernel
theorem st_i3 : Cond.initialized "java/lang/String" ∈ lw_tbl := by decide +kernel
theorem st_i4 : Cond.initialized "jdk/internal/util/Preconditions" ∈ lw_tbl := by decide +kernel
theorem st_n1 : Cond.isRef (.static Bundle.tN "UNASSIGNED_STACK" Bundle.steD) ∈ FL := by decide +kernel
theorem st_n2 : Cond.isRef (.static Bundle.tN "SUPPRESSED_SENTINEL" Bundle.listD) ∈ FL := by decide +kernel
theorem st_n3 : Cond.eq (.static "java/lang/String" "COMPACT_STRINGS" "Z") (.int 1) ∈ FL := by decide +kernel
theorem st_n4 : Cond.isRef (.static "jdk/internal/util/Preconditions" "SIOOBE_FORMATTER" "Ljava/util/function/BiFunction;") ∈ FL := by decide +kernel
theorem ct_1 : Cond.castable (exN 1) (exN 1) ∈ lw_tbl := by decide +kernel
theorem ct_2 : Cond.castable (exN 2) (exN 2) ∈ lw_tbl := by decide +kernel
theorem ct_3 : Cond.castable (exN 3) (exN 3) ∈ lw_tbl := by decide +kernel
theorem ct_4 : Cond.castable (exN 4) (exN 4) ∈ lw_tbl := by decide +kernel
theorem ct_5 : Cond.castable (exN 5) (exN 5) ∈ lw_tbl := by decide +kernel
theorem cn_21 : Cond.not (.castable (exN 2) (exN 1)) ∈ FL := by decide +kernel
theorem cn_31 : Cond.not (.castable (exN 3) (exN 1)) ∈ FL := by decide +kernel
theorem cn_41 : Cond.not (.castable (exN 4) (exN 1)) ∈ FL := by decide +kernel
theorem cn_43 : Cond.not (.castable (exN 4) (exN 3)) ∈ FL := by decide +kernel
theorem cl_0 : Cond.classLink RX7 152 (exN 4) ∈ lw_tbl := by decide +kernel
theorem cl_1 : Cond.classLink RL 15 (exN 2) ∈ lw_tbl := by decide +kernel
theorem cl_2 : Cond.classLink RL 41 (exN 3) ∈ lw_tbl := by decide +kernel
theorem cl_3 : Cond.classLink RL 84 (exN 4) ∈ lw_tbl := by decide +kernel
theorem ao_2 : Cond.arrayOver (.object RX2) ∈ lw_tbl := by decide +kernel
theorem ao_5 : Cond.arrayOver (.object RX5) ∈ lw_tbl := by decide +kernel
theorem ao_b : Cond.arrayOver (.array .boolean) ∈ lw_tbl := by decide +kernel
theorem ac_c : Cond.arrayClass .char ∈ lw_tbl := by decide +kernel
theorem ac_i : Cond.arrayClass .int ∈ lw_tbl := by decide +kernel
theorem ac_b : Cond.arrayClass .boolean ∈ lw_tbl := by decide +kernel
theorem ac_l : Cond.arrayClass .long ∈ lw_tbl := by decide +kernel
theorem e_start {args : Array Value} {s : State} (hts : ∀ w ∈ lw_tbl, w.before args s = true) (hgv : (Jvm.Cond.and given_1 narrow_1).before args s = true) : ∃ kK kV : Nat → Nat, eAll kK kV (fun q : Nat => s.heap.size ≤ q) s s.heap := by
  have hn : ∀ w ∈ FL, w.before args s = true := flat_of_before _ hgv
  have hA : ∀ a : Nat, a < s.heap.size → ¬ (fun q : Nat => s.heap.size ≤ q) a := fun a h h2 => Nat.not_lt.mpr h2 h
  obtain ⟨kK, kV, hS, hR⟩ := vk_Sof (args := args) (s := s) (N := 3) (tm := tmS) (len := slen) (byt := sbyt) (A := fun q : Nat => s.heap.size ≤ q) (by decide +kernel) (fun i hi => hn _ (sx_ex i hi)) (fun i hi => hn _ (sx_co i hi)) (fun i hi => hn _ (sx_ar i hi)) (fun i hi => hn _ (sx_le i hi)) (fun i hi j hj => hn _ (sx_el i hi j hj)) (fun i j hi hj hij => (sx_ne i hi j hj hij).imp (fun h => hn _ h) (fun h => hn _ h)) hA
  have r0 : (Term.string RX7 208).eval args s none [] s = some (.ref (kK 0)) := hR 0 (by decide)
  have r1 : (Term.string RX7 210).eval args s none [] s = some (.ref (kK 1)) := hR 1 (by decide)
  have r2 : (Term.string RX7 212).eval args s none [] s = some (.ref (kK 2)) := hR 2 (by decide)
  refine ⟨kK, kV, ⟨?_, ?_, ?_, ?_⟩, ⟨⟨?_, ?_, ?_, ?_, ?_⟩, ⟨?_, ?_, ?_, ?_⟩, ⟨?_, ?_, ?_, ?_⟩⟩, ⟨hS, ?_, ?_, ⟨?_, ?_, ?_⟩, ?_, ?_, ?_⟩, ?_, ?_, ?_⟩
  · exact vx_Zqof (hts _ st_l1) (hts _ st_i1) (hn _ st_n1) hA
  · exact vx_Zqof (hts _ st_l2) (hts _ st_i1) (hn _ st_n2) hA
  · intro q hq
    obtain ⟨a, c, cA, kA, q1, -⟩ := Cond.exactly_spec (args := args) (first := s) (o := none) (s := s) (idx := []) (t := .string q.1 q.2.1) (cls := "java/lang/String") (hn _ (thS_ex q hq))
    exact ⟨a, vk_R.of (A := args) (hts _ (thS_tbl q hq)) q1⟩
  · exact fun w hw => va_Nw.of (thB_tab w hw) (hts w (thB_tbl w hw))
  · exact va_Nw.of rfl (hts _ ct_1)
  · exact va_Nw.of rfl (hts _ ct_2)
  · exact va_Nw.of rfl (hts _ ct_3)
  · exact va_Nw.of rfl (hts _ ct_4)
  · exact va_Nw.of rfl (hts _ ct_5)
  · exact va_Nc.of (hn _ cn_21)
  · exact va_Nc.of (hn _ cn_31)
  · exact va_Nc.of (hn _ cn_41)
  · exact va_Nc.of (hn _ cn_43)
  · exact va_Nw.of rfl (hts _ cl_0)
  · exact va_Nw.of rfl (hts _ cl_1)
  · exact va_Nw.of rfl (hts _ cl_2)
  · exact va_Nw.of rfl (hts _ cl_3)
  · exact va_Zof (hts _ st_l3) (hts _ st_i3) (va_eqi (hn _ st_n3)) hA
  · exact va_Zqof (hts _ st_l4) (hts _ st_i4) (hn _ st_n4) hA
  · exact vk_R.of (A := args) (hts _ sr_70) r0
  · exact vk_R.of (A := args) (hts _ sr_71) r1
  · exact vk_R.of (A := args) (hts _ sr_72) r2
  · exact vk_R.of (A := args) (hts _ sr_80) (va_eqR (hn _ sx_q0) r0)
  · exact vk_R.of (A := args) (hts _ sr_81) (va_eqR (hn _ sx_q1) r1)
  · exact vk_R.of (A := args) (hts _ sr_82) (va_eqR (hn _ sx_q2) r2)
  · exact va_AO.of (hts _ ao_2)
  · exact va_AO.of (hts _ ao_5)
  · exact va_AOA.of (hts _ ao_b)
theorem ki_0 : Cond.instantiable RX0 3 ∈ lw_tbl := by decide +kernel
theorem ki_1 : Cond.instantiable RX1 3 ∈ lw_tbl := by decide +kernel
theorem ki_2 : Cond.instantiable RX2 2 ∈ lw_tbl := by decide +kernel
theorem ki_3 : Cond.instantiable RX3 15 ∈ lw_tbl := by decide +kernel
theorem ki_4 : Cond.instantiable RX4 2 ∈ lw_tbl := by decide +kernel
theorem ki_5 : Cond.instantiable RX5 1 ∈ lw_tbl := by decide +kernel
theorem ki_6 : Cond.instantiable RX6 4 ∈ lw_tbl := by decide +kernel
theorem ki_7 : Cond.instantiable RX7 8 ∈ lw_tbl := by decide +kernel
theorem ki_8 : Cond.instantiable RX8 19 ∈ lw_tbl := by decide +kernel
theorem ao_arr {args : Array Value} {s : State} {t : FieldType} (h : (Cond.arrayOver (.array t)).before args s = true) : ∃ (comp c : ClassId) (k : Class), s.vm.classes[c]? = some k ∧ k.kind = .array comp (.array t) ∧ s.vm.findClass ("[" ++ (FieldType.array t).toString) = some c := by
  simp only [Cond.before, Cond.holds, Cond.value, beq_iff_eq] at h
  cases hc : s.vm.findClass (FieldType.array t).toString with
  | none => simp [hc] at h
  | some comp =>
    simp only [hc, Option.bind_some, Option.bind_eq_some_iff, Option.map_eq_some_iff] at h
    obtain ⟨c, hi, k, hk, hb⟩ := h
    obtain ⟨hlt, hp, -⟩ := Array.findIdx?_eq_some_iff_getElem.mp hi
    have hkk : s.vm.classes[c] = k := (Array.getElem?_eq_some_iff.mp hk).2
    rw [hkk] at hp
    cases hkind : k.kind with
    | array component ty =>
      rw [hkind] at hb hp
      simp at hb hp
      exact ⟨comp, c, k, hk, by rw [hkind, hp, hb.1], hb.2⟩
    | _ => rw [hkind] at hb; simp at hb
theorem k_start {args : Array Value} {s : State} (hts : ∀ w ∈ lw_tbl, w.before args s = true) : ∃ (D : va_G) (κ : Nat → ClassId), va_K D vwCl (tyA κ) s := by
  obtain ⟨c0, i0, h0⟩ := u_known (C := RX0) (T := TX0) (N := 3) (n := 3) hts inX0 (hts _ ki_0)
  obtain ⟨c1, i1, h1⟩ := u_known (C := RX1) (T := TX1) (N := 3) (n := 3) hts inX1 (hts _ ki_1)
  obtain ⟨c2, i2, h2⟩ := u_known (C := RX2) (T := TX2) (N := 2) (n := 2) hts inX2 (hts _ ki_2)
  obtain ⟨c3, i3, h3⟩ := u_known (C := RX3) (T := TX3) (N := 15) (n := 15) hts inX3 (hts _ ki_3)
  obtain ⟨c4, i4, h4⟩ := u_known (C := RX4) (T := TX4) (N := 2) (n := 2) hts inX4 (hts _ ki_4)
  obtain ⟨c5, i5, h5⟩ := u_known (C := RX5) (T := TX5) (N := 1) (n := 1) hts inX5 (hts _ ki_5)
  obtain ⟨c6, i6, h6⟩ := u_known (C := RX6) (T := TX6) (N := 4) (n := 4) hts inX6 (hts _ ki_6)
  obtain ⟨c7, i7, h7⟩ := u_known (C := RX7) (T := TX7) (N := 8) (n := 8) hts inX7 (hts _ ki_7)
  obtain ⟨c8, i8, h8⟩ := u_known (C := RX8) (T := TX8) (N := 19) (n := 19) hts inX8 (hts _ ki_8)
  obtain ⟨p0, a0, k0, x0, -, y0, z0, w0⟩ := Cond.arrayOver_spec (hts _ ao_2)
  obtain ⟨p1, a1, k1, x1, -, y1, z1, w1⟩ := Cond.arrayOver_spec (hts _ ao_5)
  obtain ⟨a2, k2, p2, x2, y2, z2⟩ := Cond.arrayClass_spec (hts _ ac_c)
  obtain ⟨a3, k3, p3, x3, y3, z3⟩ := Cond.arrayClass_spec (hts _ ac_i)
  obtain ⟨a4, k4, p4, x4, y4, z4⟩ := Cond.arrayClass_spec (hts _ ac_b)
  obtain ⟨p5, a5, k5, y5, z5, w5⟩ := ao_arr (hts _ ao_b)
  obtain ⟨a6, k6, p6, x6, y6, z6⟩ := Cond.arrayClass_spec (hts _ ac_l)
  refine ⟨(fun k => [c0, c1, c2, c3, c4, c5, c6, c7, c8].getD k c0, fun k => [i0, i1, i2, i3, i4, i5, i6, i7, i8].getD k i0), fun k => [a0, a1, a2, a3, a4, a5, a6].getD k a0, ?_, ?_⟩
  · intro c q hq
    match c, hq with
    | 0, hq => cases hq; exact h0
    | 1, hq => cases hq; exact h1
    | 2, hq => cases hq; exact h2
    | 3, hq => cases hq; exact h3
    | 4, hq => cases hq; exact h4
    | 5, hq => cases hq; exact h5
    | 6, hq => cases hq; exact h6
    | 7, hq => cases hq; exact h7
    | 8, hq => cases hq; exact h8
    | k + 9, hq => exact absurd (List.getElem?_eq_some_iff.mp hq).1 (by simp)
  · intro c q hq
    match c, hq with
    | 0, hq => cases hq; exact ⟨fun n z => ⟨(fun k h => by cases h), k0, y0, p0, z0⟩, k0, p0, y0, z0, x0, w0⟩
    | 1, hq => cases hq; exact ⟨fun n z => ⟨(fun k h => by cases h), k1, y1, p1, z1⟩, k1, p1, y1, z1, x1, w1⟩
    | 2, hq => cases hq; exact ⟨fun n z => ⟨(fun k h => by cases h), k2, y2, p2, z2⟩, x2⟩
    | 3, hq => cases hq; exact ⟨fun n z => ⟨(fun k h => by cases h), k3, y3, p3, z3⟩, x3⟩
    | 4, hq => cases hq; exact ⟨fun n z => ⟨(fun k h => by cases h), k4, y4, p4, z4⟩, x4⟩
    | 5, hq => cases hq; exact ⟨fun n z => ⟨(fun k h => by cases h), k5, y5, p5, z5⟩, w5⟩
    | 6, hq => cases hq; exact ⟨fun n z => ⟨(fun k h => by cases h), k6, y6, p6, z6⟩, x6⟩
    | k + 7, hq => exact absurd (List.getElem?_eq_some_iff.mp hq).1 (by simp)
