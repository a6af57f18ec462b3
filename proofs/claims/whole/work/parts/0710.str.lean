/-! ===== calls on an object that is not of the world ===== -/
section VCR
variable {σ : Type} {w : σ → va_W} {D : va_G} {tys : List (ClassId × FieldType)} {E : evT} {l : Launch} {Γ : cxT} {cc : ByteArray} {own : String} {Ts : List Cond} {nL : Nat} {R : Room} {st : σ} {cells slots pc : Nat} {lv : List (Nat × Value)} {rest : List Value}
theorem r_callViR (G : Cx w D tys E l Γ cc own Ts nL R) {y : MethodName} {bytes : ByteArray} {rt : FieldType} {maxL index : Nat} {ret : Option FieldType} {ws ws' : List Cond} {rm : Room} {C : String} {b : Nat} {post : Int32 → σ → Prop} {c2 s2 : Nat} {stk : List Value} (As : List Value) (hM : Ci l y ws rm w E D tys rt (.ref b :: As) st post) (hv : ∀ (H : Heap) (locs : List Loc), va_S (xA Γ) (xH Γ) H locs → ∃ cell : Cell, H[b]? = some cell ∧ cell.vm.isStatics = false ∧ (xs Γ).vm.findClass C = some cell.cls) (hg : GoodIn Ts (wsV own index C y ws)) (hws : ws = Cond.code y bytes maxL ret :: ws') (hd : y.cls = C ∧ y.cls ≠ "java/lang/invoke/MethodHandle" ∧ y.cls ≠ "java/lang/invoke/VarHandle" ∧ (parseMethodDescriptor y.desc).map (fun d => d.parameters.length) = some As.length) (hR : rm.frames + 1 ≤ R.frames ∧ 8 + (maxL + 11) + rm.locals ≤ R.locals) (hrest : (rest.map fun v => v.category).sum ≤ 8) (hstk : stk = As.reverse ++ .ref b :: rest) (hc : c2 ≤ R.cells ∧ s2 ≤ R.slots) (hc2 : cells + rm.cells = c2) (hs2 : slots + rm.slots = s2) (d : decode cc pc = .ok (.invokevirtual index, 3)) (k : ∀ (r : Int32) (st2 : σ), post r st2 → narrow rt (.int r) = .int r → V w D Γ st2 c2 s2 (pc + 3) lv (.int r :: rest)) : V w D Γ st cells slots pc lv stk := by
  subst hc2; subst hs2; subst hstk
  intro H locs ls hl hP hS
  have hFA := G.free hS st
  have hM1 := hM H.size
  rw [← G.hL] at hM1
  refine va_calli (va_runV (As := As) (rest := rest) ⟨G.hx, G.hb, G.ml, G.ow, G.ts⟩ hM1 (cwV As.length G.ts hg hws rfl rfl hd (by rw [G.hR]; exact hR)) ⟨CG_blind G.eo, hv H locs hS, fun U hU hW => ⟨rfl, G.pre hP hS U hU hW⟩⟩ rfl rfl (by rw [← G.n]; exact hl.1) rfl (lv_room hrest) d (by rw [G.hR]; exact hc)) hS (fun q _ h => hFA q h) hFA (fun r u t H1 locs1 ht hvm hw hB hz1 hk1 hS1 => k r u hw.1 hw.2 H1 locs1 ls hl (ht ▸ hB) hS1)
end VCR
section VER
variable {σ τ : Type} {w : σ → va_W} {u : τ → va_W} {D : va_G} {tys : List (ClassId × FieldType)} {E : evT} {l : Launch} {Γ : cxT} {cc : ByteArray} {own : String} {Ts : List Cond} {nL : Nat} {R : Room} {st : σ} {su : τ} {cells slots pc : Nat} {lv : List (Nat × Value)} {rest : List Value} {P Q : va_W}
theorem e_callViR (G : Cx w D tys E l Γ cc own Ts nL R) {y : MethodName} {bytes : ByteArray} {rt : FieldType} {maxL index : Nat} {ret : Option FieldType} {ws ws' : List Cond} {rm : Room} {C : String} {b : Nat} {post : Int32 → τ → Prop} {c2 s2 : Nat} {stk : List Value} (inj : τ → σ) (hemb : ∀ t, w (inj t) = (P ++ u t) ++ Q) (hst : st = inj su) (As : List Value) (hM : Ci l y ws rm u E D tys rt (.ref b :: As) su post) (hv : ∀ (H : Heap) (locs : List Loc), va_S (xA Γ) (xH Γ) H locs → ∃ cell : Cell, H[b]? = some cell ∧ cell.vm.isStatics = false ∧ (xs Γ).vm.findClass C = some cell.cls) (hg : GoodIn Ts (wsV own index C y ws)) (hws : ws = Cond.code y bytes maxL ret :: ws') (hd : y.cls = C ∧ y.cls ≠ "java/lang/invoke/MethodHandle" ∧ y.cls ≠ "java/lang/invoke/VarHandle" ∧ (parseMethodDescriptor y.desc).map (fun d => d.parameters.length) = some As.length) (hR : rm.frames + 1 ≤ R.frames ∧ 8 + (maxL + 11) + rm.locals ≤ R.locals) (hrest : (rest.map fun v => v.category).sum ≤ 8) (hstk : stk = As.reverse ++ .ref b :: rest) (hc : c2 ≤ R.cells ∧ s2 ≤ R.slots) (hc2 : cells + rm.cells = c2) (hs2 : slots + rm.slots = s2) (d : decode cc pc = .ok (.invokevirtual index, 3)) (k : ∀ (r : Int32) (t2 : τ), post r t2 → narrow rt (.int r) = .int r → V w D Γ (inj t2) c2 s2 (pc + 3) lv (.int r :: rest)) : V w D Γ st cells slots pc lv stk := by
  subst hc2; subst hs2; subst hstk; subst hst
  intro H locs ls hl hP hS
  have hrv := hv H locs hS
  have hD := G.hD (inj su)
  rw [hemb] at hP hD
  have hFA := ext_A hD hS G.A
  have hM1 := hM H.size
  rw [← G.hL] at hM1
  refine va_calli (va_runV (As := As) (rest := rest) ⟨G.hx, G.hb, G.ml, G.ow, G.ts⟩ hM1 (cwV As.length G.ts hg hws rfl rfl hd (by rw [G.hR]; exact hR)) ⟨CG_blind G.eo, hrv, fun U hU hW => ⟨rfl, G.preE hP hD hS U hU hW⟩⟩ rfl rfl (by rw [← G.n]; exact hl.1) rfl (lv_room hrest) d (by rw [G.hR]; exact hc)) hS (fun q _ h => hFA q h) hFA (fun r t2 t H1 locs1 ht hvm hw hB hz1 hk1 hS1 => k r t2 hw.1 hw.2 H1 locs1 ls hl (by rw [hemb]; exact ext_join hP hD hk1 (ht ▸ hB)) hS1)
end VER
/-! ===== String constants ===== -/
def eW : Unit → va_W := fun _ => []
theorem eW_WA : WA eW := fun _ _ => rfl
def SAt (kK kV : Nat → Nat) (A : Nat → Prop) (U : State) (H : Heap) : Prop := vk_S 3 slen sbyt kK kV A U H ∧ va_Z "java/lang/String" "COMPACT_STRINGS" "Z" (.int 1) A U H ∧ va_Zq "jdk/internal/util/Preconditions" "SIOOBE_FORMATTER" "Ljava/util/function/BiFunction;" A U H ∧ (vk_R RX7 208 "a = { -9 .. 9 }; b = { 0 .. 30, # }; c = { -30 .. 3 }; d = a & b | c; e = (a | c) & (b | c); f = a - (b | c); g = (a - b) & (a - c); h = a ^ b ^ c;" (kK 0) U ∧ vk_R RX7 210 "a={1..10}-{5};b={#,-50..-40,7};c=a^b;d=c^a;e=(a|b)-(a&b);f={};g=f|{#};h=(((b&a)|d)-g);" (kK 1) U ∧ vk_R RX7 212 "a={0,2,4,6,8};b={0,3,6,9};c=a&b;d=a|b;e={0..9};f=e-a;g=e-b;h=f&g;" (kK 2) U) ∧ (vk_R RX8 144 "a = { -9 .. 9 }; b = { 0 .. 30, # }; c = { -30 .. 3 }; d = a & b | c; e = (a | c) & (b | c); f = a - (b | c); g = (a - b) & (a - c); h = a ^ b ^ c;" (kK 0) U ∧ vk_R RX8 146 "a={1..10}-{5};b={#,-50..-40,7};c=a^b;d=c^a;e=(a|b)-(a&b);f={};g=f|{#};h=(((b&a)|d)-g);" (kK 1) U ∧ vk_R RX8 148 "a={0,2,4,6,8};b={0,3,6,9};c=a&b;d=a|b;e={0..9};f=e-a;g=e-b;h=f&g;" (kK 2) U)
def SOk (E : evT) (kK kV : Nat → Nat) : Prop := ∀ (A : Nat → Prop) (U : State) (H : Heap), E A U H → SAt kK kV A U H
section VSG
variable {σ : Type} {w : σ → va_W} {D : va_G} {tys : List (ClassId × FieldType)} {E : evT} {l : Launch} {Γ : cxT} {cc : ByteArray} {own : String} {Ts : List Cond} {nL : Nat} {R : Room} {st : σ} {cells slots pc : Nat} {lv : List (Nat × Value)} {rest : List Value}
theorem r_getsf (G : Cx w D tys E l Γ cc own Ts nL R) {o n d : String} {index q : Nat} {v : Value} (hE : va_OF o n d v q (xA Γ) (xs Γ) (xH Γ)) (hlink : Cond.fieldLink own index o n d ∈ Ts) (hd : decode cc pc = .ok (.getfield index, 3)) (k : V w D Γ st cells slots (pc + 3) lv (v :: rest)) : V w D Γ st cells slots pc lv (.ref q :: rest) :=
  fun H locs ls hl hP hS => vk_getf G.hx G.hb (by rw [G.H]; exact hE) (by rw [G.H]; exact hS) G.ow (G.ts _ hlink) (fun _ h => h) hd (k H locs ls hl hP hS)
theorem r_gets (G : Cx w D tys E l Γ cc own Ts nL R) {C n d : String} {index : Nat} {v : Value} (hZ : va_Z C n d v (xA Γ) (xs Γ) (xH Γ)) (hlink : Cond.fieldLink own index C n d ∈ Ts) (hd : decode cc pc = .ok (.getstatic index, 3)) (k : V w D Γ st cells slots (pc + 3) lv (v :: rest)) : V w D Γ st cells slots pc lv rest :=
  fun H locs ls hl hP hS => va_gets G.hx G.hb (by rw [G.H]; exact hZ) (by rw [G.H]; exact hS) G.ow (G.ts _ hlink) (fun _ h => h) hd (k H locs ls hl hP hS)
theorem r_tb (G : Cx w D tys E l Γ cc own Ts nL R) {t N : Nat} {f : Nat → Value} {i : Int32} {v : Value} (hT : va_T .byte t N f (xA Γ) (xs Γ) (xH Γ)) (hin : vp_in i N) (hv : f i.toNatClampNeg = v) (hd : decode cc pc = .ok (.baload, 1)) (k : V w D Γ st cells slots (pc + 1) lv (v :: rest)) : V w D Γ st cells slots pc lv (.int i :: .ref t :: rest) :=
  fun H locs ls hl hP hS => va_tb G.hx G.hb (by rw [G.H]; exact hT) (by rw [G.H]; exact hS) hin hv hd (k H locs ls hl hP hS)
theorem r_tlen (G : Cx w D tys E l Γ cc own Ts nL R) {ty : FieldType} {t N : Nat} {f : Nat → Value} {v : Int32} (hT : va_T ty t N f (xA Γ) (xs Γ) (xH Γ)) (hv : Int32.ofNat N = v) (hd : decode cc pc = .ok (.arraylength, 1)) (k : V w D Γ st cells slots (pc + 1) lv (.int v :: rest)) : V w D Γ st cells slots pc lv (.ref t :: rest) :=
  fun H locs ls hl hP hS => va_tlen G.hx G.hb (by rw [G.H]; exact hT) (by rw [G.H]; exact hS) hv hd (k H locs ls hl hP hS)
theorem r_ldcS (G : Cx w D tys E l Γ cc own Ts nL R) {tx : String} {index q : Nat} (hZ : vk_R own index tx q (xs Γ)) (hd : decode cc pc = .ok (.ldc index, 2)) (k : V w D Γ st cells slots (pc + 2) lv (.ref q :: rest)) : V w D Γ st cells slots pc lv rest :=
  fun H locs ls hl hP hS => va_ldcS G.hx G.hb G.ow hZ hd (k H locs ls hl hP hS)
theorem SOk.recv {kK kV : Nat → Nat} (hSt : SOk E kK kV) (G : Cx w D tys E l Γ cc own Ts nL R) {j : Nat} (hj : j < 3) : ∀ (H : Heap) (locs : List Loc), va_S (xA Γ) (xH Γ) H locs → ∃ cell : Cell, H[kK j]? = some cell ∧ cell.vm.isStatics = false ∧ (xs Γ).vm.findClass "java/lang/String" = some cell.cls := by
  intro H locs hS
  refine vk_recv (A := xA Γ) (N := 3) (len := slen) (byt := sbyt) (adK := kK) (adV := kV) (locs := locs) ?_ hj ?_
  · rw [G.H]; exact (hSt _ _ _ G.ev).1
  · rw [G.H]; exact hS
end VSG
theorem s_r {σ : Type} {w : σ → va_W} {D : va_G} {tys : List (ClassId × FieldType)} {E : evT} {l : Launch} {y : MethodName} {ws ws' : List Cond} {rm : Room} {cc : ByteArray} {nL : Nat} {own : String} {As : List Value} {st : σ} {C : String} {ad : Nat → Nat} {post : Nat → σ → Prop} (hE : EvOk E) (hw : WA w) (hy : plainName y.cls = true) (how : y.cls = own) (hws : ws = Cond.code y cc nL (some (.object C)) :: ws') (hlen : (lg_sl As).length ≤ nL)
    (body : ∀ Γ : cxT, Cx w D tys E l Γ cc own ws nL rm → (∀ (st2 : σ) (n : Nat) (cells slots pc : Nat) (lv : List (Nat × Value)), decode cc pc = .ok (.areturn, 1) → post n st2 → cells ≤ rm.cells → slots ≤ rm.slots → V w D Γ st2 cells slots pc lv [.ref (ad n)]) → V w D Γ st 0 0 0 (lv_args 0 As) []) : Cr l y ws rm w E D tys ad As st post := by
  intro sz
  refine Met.ofW (cc := cc) (maxL := nL) (ret := some (.object C)) hy hws ?_
  intro p e s m args below meth c s₁ B hml hv
  obtain ⟨rfl, hsz, hP, hK, hD0, hEv⟩ := hv
  have hts := atoms_spec (ws := ws) B.pre
  have hown : s.vm.findClass own = some m.cls := by rw [← how]; exact findClass_of_methodNamed B.named
  subst hsz
  have hD : va_D (va_A (w st) s.heap.size) (w st) := hD0.self
  have hl := lv_entry As (n := nL) hlen
  rw [lg_entry_eq]
  exact body (p, l, e, rm, s, m, As.toArray, below, meth, c, va_A (w st) s.heap.size, s.heap, MQ below (va_Qr (fun u : Nat × σ => post u.1 u.2) (fun u a t => a = ad u.1 ∧ va_P D vwCl (w u.2) t.heap) (va_A (w st) s.heap.size)) As.toArray s rm.cells rm.slots (va_A (w st) s.heap.size), nL)
    ⟨B.exec, B.bytes, hts, hown, hK, ⟨hml, rfl⟩, fun q h => Or.inr h, fun st' => WA_D hw hD st', rfl, rfl, rfl, hE, hEv⟩
    (fun st2 n cells slots pc lv d hp hc hs H locs ls _ hP2 hS => W.widen hc hs (W.aret B.exec B.bytes B.returns (Or.inl ⟨C, rfl⟩) (Or.inr ⟨ad n, rfl⟩) (fun t ht hW => ⟨⟨(n, st2), ad n, rfl, hp, rfl, by show va_P D vwCl _ t.heap; rw [ht]; exact hP2⟩, hS.F ht⟩) hS.2.2 d B.notSynchronized))
    s.heap [] _ hl hP va_S.rf
/-! ===== the JDK's methods of a String ===== -/
set_option maxRecDepth 20000 in
theorem mJS1 : Cond.fieldLink RJ0 38 "java/lang/String" "COMPACT_STRINGS" "Z" ∈ wsJ0_coder_7d493 := by decide +kernel
set_option maxRecDepth 20000 in
theorem mJS2 : Cond.fieldLink RJ0 15 "java/lang/String" "coder" "B" ∈ wsJ0_coder_7d493 := by decide +kernel
set_option maxRecDepth 20000 in
theorem mJS3 : Cond.fieldLink RJ0 9 "java/lang/String" "value" "[B" ∈ wsJ0_length_8abf5 := by decide +kernel
set_option maxRecDepth 20000 in
theorem mJS4 : Cond.fieldLink RJ0 38 "java/lang/String" "COMPACT_STRINGS" "Z" ∈ wsJ0_isLatin1_aae02 := by decide +kernel
set_option maxRecDepth 20000 in
theorem mJS5 : Cond.fieldLink RJ0 15 "java/lang/String" "coder" "B" ∈ wsJ0_isLatin1_aae02 := by decide +kernel
set_option maxRecDepth 20000 in
theorem mJS6 : Cond.fieldLink RJ0 1053 "jdk/internal/util/Preconditions" "SIOOBE_FORMATTER" "Ljava/util/function/BiFunction;" ∈ wsJ0_checkIndex_df160 := by decide +kernel
set_option maxRecDepth 20000 in
theorem mJS7 : Cond.fieldLink RJ0 9 "java/lang/String" "value" "[B" ∈ wsJ0_charAt_5068e := by decide +kernel
theorem slen_ishr : ∀ j, j < 3 → Int32.ofNat (slen.getD j 0) >>> ((0 : Int32) &&& 31) = fS_len j := by decide +kernel
theorem slen_nat : ∀ j, j < 3 → slen.getD j 0 < 2 ^ 31 := by decide +kernel
theorem sbyt_char : ∀ j, j < 3 → ∀ k, k < slen.getD j 0 → narrow .char (.int ((((sbyt.getD j []).getD k 0 &&& 255).toUInt32 % 65536).toInt32)) = .int ((((sbyt.getD j []).getD k 0 &&& 255).toUInt32 % 65536).toInt32) := by decide +kernel
theorem hdJ0_coder : yJ0_coder_7d493.cls = RJ0 ∧ yJ0_coder_7d493.cls ≠ "java/lang/invoke/MethodHandle" ∧ yJ0_coder_7d493.cls ≠ "java/lang/invoke/VarHandle" ∧ (parseMethodDescriptor yJ0_coder_7d493.desc).map (fun d => d.parameters.length) = some 0 := by decide +kernel
theorem hdJ0_isLatin1 : yJ0_isLatin1_aae02.cls = RJ0 ∧ yJ0_isLatin1_aae02.cls ≠ "java/lang/invoke/MethodHandle" ∧ yJ0_isLatin1_aae02.cls ≠ "java/lang/invoke/VarHandle" ∧ (parseMethodDescriptor yJ0_isLatin1_aae02.desc).map (fun d => d.parameters.length) = some 0 := by decide +kernel
theorem hdJ3_checkIndex : yJ3_checkIndex_8e157.cls ≠ "java/lang/invoke/MethodHandle" ∧ yJ3_checkIndex_8e157.cls ≠ "java/lang/invoke/VarHandle" ∧ (parseMethodDescriptor yJ3_checkIndex_8e157.desc).map (fun d => d.parameters.length) = some 3 := by decide +kernel
theorem hdJ0_checkIndex : yJ0_checkIndex_df160.cls ≠ "java/lang/invoke/MethodHandle" ∧ yJ0_checkIndex_df160.cls ≠ "java/lang/invoke/VarHandle" ∧ (parseMethodDescriptor yJ0_checkIndex_df160.desc).map (fun d => d.parameters.length) = some 2 := by decide +kernel
theorem hdJ1_charAt : yJ1_charAt_3b067.cls ≠ "java/lang/invoke/MethodHandle" ∧ yJ1_charAt_3b067.cls ≠ "java/lang/invoke/VarHandle" ∧ (parseMethodDescriptor yJ1_charAt_3b067.desc).map (fun d => d.parameters.length) = some 2 := by decide +kernel
theorem hdJ0_length : yJ0_length_8abf5.cls = RJ0 ∧ yJ0_length_8abf5.cls ≠ "java/lang/invoke/MethodHandle" ∧ yJ0_length_8abf5.cls ≠ "java/lang/invoke/VarHandle" ∧ (parseMethodDescriptor yJ0_length_8abf5.desc).map (fun d => d.parameters.length) = some 0 := by decide +kernel
theorem hdJ0_charAt : yJ0_charAt_5068e.cls = RJ0 ∧ yJ0_charAt_5068e.cls ≠ "java/lang/invoke/MethodHandle" ∧ yJ0_charAt_5068e.cls ≠ "java/lang/invoke/VarHandle" ∧ (parseMethodDescriptor yJ0_charAt_5068e.desc).map (fun d => d.parameters.length) = some 1 := by decide +kernel
abbrev rmJS0 : Room := { frames := 1, cells := 0, slots := 0, locals := 30 }
abbrev rmJS1 : Room := { frames := 2, cells := 0, slots := 0, locals := 60 }
abbrev rmJS2 : Room := { frames := 3, cells := 0, slots := 0, locals := 100 }
abbrev rmJS3 : Room := { frames := 4, cells := 0, slots := 0, locals := 140 }
section VJS
variable {E : evT} {l : Launch} {D : va_G} {kK kV : Nat → Nat}
variable {κ : Nat → ClassId}
theorem qJ0_coder (hE : EvOk E) (hSt : SOk E kK kV) {j : Nat} (hj : j < 3) : Ci l yJ0_coder_7d493 wsJ0_coder_7d493 rmJS0 eW E D (tyA κ) .byte [.ref (kK j)] () (fun r _ => r = 0) := by
  refine s_i (cc := cJ0_coder_7d493) (nL := 1) (own := RJ0) hE eW_WA (by decide +kernel) rfl rfl (Nat.le_of_ble_eq_true rfl) (fun Γ G hret => ?_)
  refine r_gets G (v := .int 1) (hSt _ _ _ G.ev).2.1 mJS1 dJ0_coder_7d493_0 ?_
  refine r_if_eq G (tgt := 13) dJ0_coder_7d493_3 (by decide) (fun c => absurd c (by decide)) (fun _ => ?_)
  refine r_aload_n G 0 rfl rfl dJ0_coder_7d493_6 ?_
  refine r_getsf G ((hSt _ _ _ G.ev).1.1 j hj).2.1 mJS2 dJ0_coder_7d493_7 ?_
  refine r_goto G (tgt := 14) dJ0_coder_7d493_10 (by decide) ?_
  exact hret _ _ _ _ _ _ dJ0_coder_7d493_14 rfl rfl (Nat.le_of_ble_eq_true rfl) (Nat.le_of_ble_eq_true rfl)
theorem qJ0_length (hE : EvOk E) (hSt : SOk E kK kV) {j : Nat} (hj : j < 3) : Ci l yJ0_length_8abf5 wsJ0_length_8abf5 rmJS1 eW E D (tyA κ) .int [.ref (kK j)] () (fun r _ => r = fS_len j) := by
  refine s_i (cc := cJ0_length_8abf5) (nL := 1) (own := RJ0) hE eW_WA (by decide +kernel) rfl rfl (Nat.le_of_ble_eq_true rfl) (fun Γ G hret => ?_)
  refine r_aload_n G 0 rfl rfl dJ0_length_8abf5_0 ?_
  refine r_getsf G ((hSt _ _ _ G.ev).1.1 j hj).2.2.1 mJS3 dJ0_length_8abf5_1 ?_
  refine r_tlen G ((hSt _ _ _ G.ev).1.1 j hj).2.2.2 rfl dJ0_length_8abf5_4 ?_
  refine r_aload_n G 0 rfl rfl dJ0_length_8abf5_5 ?_
  refine r_callViR G [] (qJ0_coder hE hSt hj) (hSt.recv G hj) gJ0_length_8abf5_J0_coder_7d493 rfl hdJ0_coder ⟨(Nat.le_of_ble_eq_true rfl), (Nat.le_of_ble_eq_true rfl)⟩ (Nat.le_of_ble_eq_true rfl) rfl ⟨(Nat.le_of_ble_eq_true rfl), (Nat.le_of_ble_eq_true rfl)⟩ rfl rfl dJ0_length_8abf5_6 (fun r s hp hn => ?_)
  subst hp
  refine r_ishr G dJ0_length_8abf5_9 ?_
  rw [slen_ishr j hj]
  exact hret _ _ _ _ _ _ dJ0_length_8abf5_10 rfl rfl (Nat.le_of_ble_eq_true rfl) (Nat.le_of_ble_eq_true rfl)
theorem qJ0_isLatin1 (hE : EvOk E) (hSt : SOk E kK kV) {j : Nat} (hj : j < 3) : Ci l yJ0_isLatin1_aae02 wsJ0_isLatin1_aae02 rmJS0 eW E D (tyA κ) .boolean [.ref (kK j)] () (fun r _ => r = 1) := by
  refine s_i (cc := cJ0_isLatin1_aae02) (nL := 1) (own := RJ0) hE eW_WA (by decide +kernel) rfl rfl (Nat.le_of_ble_eq_true rfl) (fun Γ G hret => ?_)
  refine r_gets G (v := .int 1) (hSt _ _ _ G.ev).2.1 mJS4 dJ0_isLatin1_aae02_0 ?_
  refine r_if_eq G (tgt := 17) dJ0_isLatin1_aae02_3 (by decide) (fun c => absurd c (by decide)) (fun _ => ?_)
  refine r_aload_n G 0 rfl rfl dJ0_isLatin1_aae02_6 ?_
  refine r_getsf G ((hSt _ _ _ G.ev).1.1 j hj).2.1 mJS5 dJ0_isLatin1_aae02_7 ?_
  refine r_if_ne G (tgt := 17) dJ0_isLatin1_aae02_10 (by decide) (fun c => absurd rfl c) (fun _ => ?_)
  refine r_iconst G (v := 1) (by decide) dJ0_isLatin1_aae02_13 ?_
  refine r_goto G (tgt := 18) dJ0_isLatin1_aae02_14 (by decide) ?_
  exact hret _ _ _ _ _ _ dJ0_isLatin1_aae02_18 rfl rfl (Nat.le_of_ble_eq_true rfl) (Nat.le_of_ble_eq_true rfl)
theorem qJ3_checkIndex (hE : EvOk E) {i n : Int32} {v : Value} (hv : v = .null ∨ ∃ t : Nat, v = .ref t) (h0 : ¬ i < 0) (h1 : i < n) : Ci l yJ3_checkIndex_8e157 wsJ3_checkIndex_8e157 rmJS0 eW E D (tyA κ) .int [.int i, .int n, v] () (fun r _ => r = i) := by
  have h2 : (lg_sl [.int i, .int n, v]).length ≤ 3 ∧ lv_args 0 [.int i, .int n, v] = [(0, .int i), (1, .int n), (2, v)] := by
    rcases hv with rfl | ⟨t, rfl⟩ <;> exact ⟨(Nat.le_of_ble_eq_true rfl), rfl⟩
  refine s_i (cc := cJ3_checkIndex_8e157) (nL := 3) (own := RJ3) hE eW_WA (by decide +kernel) rfl rfl h2.1 (fun Γ G hret => ?_)
  rw [h2.2]
  refine r_iload_n G 0 rfl rfl dJ3_checkIndex_8e157_0 ?_
  refine r_if_lt G (tgt := 9) dJ3_checkIndex_8e157_1 (by decide) (fun c => absurd c h0) (fun _ => ?_)
  refine r_iload_n G 0 rfl rfl dJ3_checkIndex_8e157_4 ?_
  refine r_iload_n G 1 rfl rfl dJ3_checkIndex_8e157_5 ?_
  refine r_icmp_lt G (tgt := 16) dJ3_checkIndex_8e157_6 (by decide) (fun _ => ?_) (fun c => absurd h1 c)
  refine r_iload_n G 0 rfl rfl dJ3_checkIndex_8e157_16 ?_
  exact hret _ _ _ _ _ _ dJ3_checkIndex_8e157_17 rfl rfl (Nat.le_of_ble_eq_true rfl) (Nat.le_of_ble_eq_true rfl)
theorem qJ0_checkIndex (hE : EvOk E) (hSt : SOk E kK kV) {i n : Int32} (h0 : ¬ i < 0) (h1 : i < n) : Cv l yJ0_checkIndex_df160 wsJ0_checkIndex_df160 rmJS1 eW E D (tyA κ) [.int i, .int n] () (fun _ => True) := by
  refine s_v (cc := cJ0_checkIndex_df160) (nL := 2) (own := RJ0) hE eW_WA (by decide +kernel) rfl rfl (Nat.le_of_ble_eq_true rfl) (fun Γ G hret => ?_)
  obtain ⟨v, hv, hZ⟩ : ∃ v : Value, (v = .null ∨ ∃ t : Nat, v = .ref t) ∧ va_Z "jdk/internal/util/Preconditions" "SIOOBE_FORMATTER" "Ljava/util/function/BiFunction;" v (xA Γ) (xs Γ) (xH Γ) := by
    rcases (hSt _ _ _ G.ev).2.2.1 with h | ⟨t, h⟩
    · exact ⟨_, Or.inl rfl, h⟩
    · exact ⟨_, Or.inr ⟨t, rfl⟩, h⟩
  refine r_iload_n G 0 rfl rfl dJ0_checkIndex_df160_0 ?_
  refine r_iload_n G 1 rfl rfl dJ0_checkIndex_df160_1 ?_
  refine r_gets G hZ mJS6 dJ0_checkIndex_df160_2 ?_
  refine r_callSi G [.int i, .int n, v] (qJ3_checkIndex hE hv h0 h1) gJ0_checkIndex_df160_J3_checkIndex_8e157 rfl hdJ3_checkIndex ⟨(Nat.le_of_ble_eq_true rfl), (Nat.le_of_ble_eq_true rfl)⟩ (Nat.le_of_ble_eq_true rfl) rfl ⟨(Nat.le_of_ble_eq_true rfl), (Nat.le_of_ble_eq_true rfl)⟩ rfl rfl dJ0_checkIndex_df160_5 (fun r s hp hn => ?_)
  refine r_pop G rfl dJ0_checkIndex_df160_8 ?_
  exact hret _ _ _ _ _ dJ0_checkIndex_df160_9 trivial (Nat.le_of_ble_eq_true rfl) (Nat.le_of_ble_eq_true rfl)
theorem sat_lt {j : Nat} (hj : j < 3) {i : Int32} (hi : vin i (slen.getD j 0) = true) : ¬ i < 0 ∧ i < Int32.ofNat (slen.getD j 0) := by
  have h1 := vin_in hi
  have h0 : ¬ i < 0 := fun q => h1 (Or.inl q)
  refine ⟨h0, ?_⟩
  have h2 := vin_lt hi
  have h3 := slen_nat j hj
  have h4 : (0 : Int) ≤ i.toInt := by
    have := Int32.not_lt.mp h0
    simpa using Int32.le_iff_toInt_le.mp this
  have h5 : i.toInt = (i.toNatClampNeg : Int) := by
    show i.toInt = ((i.toInt.toNat : Nat) : Int)
    omega
  rw [Int32.lt_iff_toInt_lt, h5, Int32.toInt_ofNat_of_lt h3]
  exact Int.ofNat_lt.mpr h2
theorem qJ1_charAt (hE : EvOk E) (hSt : SOk E kK kV) {j : Nat} (hj : j < 3) {i : Int32} (hi : vin i (slen.getD j 0) = true) : Ci l yJ1_charAt_3b067 wsJ1_charAt_3b067 rmJS2 eW E D (tyA κ) .char [.ref (kV j), .int i] () (fun r _ => r = fS_at j i) := by
  refine s_i (cc := cJ1_charAt_3b067) (nL := 2) (own := RJ1) hE eW_WA (by decide +kernel) rfl rfl (Nat.le_of_ble_eq_true rfl) (fun Γ G hret => ?_)
  refine r_iload_n G 1 rfl rfl dJ1_charAt_3b067_0 ?_
  refine r_aload_n G 0 rfl rfl dJ1_charAt_3b067_1 ?_
  refine r_tlen G ((hSt _ _ _ G.ev).1.1 j hj).2.2.2 rfl dJ1_charAt_3b067_2 ?_
  refine r_callSv G [.int i, .int (Int32.ofNat (slen.getD j 0))] (qJ0_checkIndex hE hSt (sat_lt hj hi).1 (sat_lt hj hi).2) gJ1_charAt_3b067_J0_checkIndex_df160 rfl hdJ0_checkIndex ⟨(Nat.le_of_ble_eq_true rfl), (Nat.le_of_ble_eq_true rfl)⟩ (Nat.le_of_ble_eq_true rfl) rfl ⟨(Nat.le_of_ble_eq_true rfl), (Nat.le_of_ble_eq_true rfl)⟩ rfl rfl dJ1_charAt_3b067_3 (fun s hp => ?_)
  refine r_aload_n G 0 rfl rfl dJ1_charAt_3b067_6 ?_
  refine r_iload_n G 1 rfl rfl dJ1_charAt_3b067_7 ?_
  refine r_tb G ((hSt _ _ _ G.ev).1.1 j hj).2.2.2 (vin_in hi) rfl dJ1_charAt_3b067_8 ?_
  refine r_sipush G (v := 255) (by decide) dJ1_charAt_3b067_9 ?_
  refine r_iand G dJ1_charAt_3b067_12 ?_
  refine r_i2c G dJ1_charAt_3b067_13 ?_
  exact hret _ _ _ _ _ _ dJ1_charAt_3b067_14 rfl (sbyt_char j hj _ (vin_lt hi)) (Nat.le_of_ble_eq_true rfl) (Nat.le_of_ble_eq_true rfl)
theorem qJ0_charAt (hE : EvOk E) (hSt : SOk E kK kV) {j : Nat} (hj : j < 3) {i : Int32} (hi : vin i (slen.getD j 0) = true) : Ci l yJ0_charAt_5068e wsJ0_charAt_5068e rmJS3 eW E D (tyA κ) .char [.ref (kK j), .int i] () (fun r _ => r = fS_at j i) := by
  refine s_i (cc := cJ0_charAt_5068e) (nL := 2) (own := RJ0) hE eW_WA (by decide +kernel) rfl rfl (Nat.le_of_ble_eq_true rfl) (fun Γ G hret => ?_)
  refine r_aload_n G 0 rfl rfl dJ0_charAt_5068e_0 ?_
  refine r_callViR G [] (qJ0_isLatin1 hE hSt hj) (hSt.recv G hj) gJ0_charAt_5068e_J0_isLatin1_aae02 rfl hdJ0_isLatin1 ⟨(Nat.le_of_ble_eq_true rfl), (Nat.le_of_ble_eq_true rfl)⟩ (Nat.le_of_ble_eq_true rfl) rfl ⟨(Nat.le_of_ble_eq_true rfl), (Nat.le_of_ble_eq_true rfl)⟩ rfl rfl dJ0_charAt_5068e_1 (fun r s hp hn => ?_)
  subst hp
  refine r_if_eq G (tgt := 16) dJ0_charAt_5068e_4 (by decide) (fun c => absurd c (by decide)) (fun _ => ?_)
  refine r_aload_n G 0 rfl rfl dJ0_charAt_5068e_7 ?_
  refine r_getsf G ((hSt _ _ _ G.ev).1.1 j hj).2.2.1 mJS7 dJ0_charAt_5068e_8 ?_
  refine r_iload_n G 1 rfl rfl dJ0_charAt_5068e_11 ?_
  refine r_callSi G [.ref (kV j), .int i] (qJ1_charAt hE hSt hj hi) gJ0_charAt_5068e_J1_charAt_3b067 rfl hdJ1_charAt ⟨(Nat.le_of_ble_eq_true rfl), (Nat.le_of_ble_eq_true rfl)⟩ (Nat.le_of_ble_eq_true rfl) rfl ⟨(Nat.le_of_ble_eq_true rfl), (Nat.le_of_ble_eq_true rfl)⟩ rfl rfl dJ0_charAt_5068e_12 (fun r s hp hn2 => ?_)
  exact hret _ _ _ _ _ _ dJ0_charAt_5068e_15 hp hn2 (Nat.le_of_ble_eq_true rfl) (Nat.le_of_ble_eq_true rfl)
end VJS
section VSX
variable {σ : Type} {w : σ → va_W} {D : va_G} {E : evT} {l : Launch} {Γ : cxT} {cc : ByteArray} {own : String} {Ts : List Cond} {nL : Nat} {R : Room} {st : σ} {cells slots pc : Nat} {lv : List (Nat × Value)} {rest : List Value} {κ : Nat → ClassId} {kK kV : Nat → Nat}
theorem r_strlen (G : Cx w D (tyA κ) E l Γ cc own Ts nL R) (hSt : SOk E kK kV) {j index : Nat} (hj : j < 3) (hg : GoodIn Ts (wsV own index RJ0 yJ0_length_8abf5 wsJ0_length_8abf5)) (hR : rmJS1.frames + 1 ≤ R.frames ∧ 8 + (1 + 11) + rmJS1.locals ≤ R.locals) (hrest : (rest.map fun v => v.category).sum ≤ 8) (hc : cells ≤ R.cells ∧ slots ≤ R.slots) (d : decode cc pc = .ok (.invokevirtual index, 3)) (k : V w D Γ st cells slots (pc + 3) lv (.int (fS_len j) :: rest)) : V w D Γ st cells slots pc lv (.ref (kK j) :: rest) :=
  e_callViR (u := eW) (su := ()) (P := w st) (Q := []) G (fun _ : Unit => st) (fun _ => by rw [show eW () = [] from rfl, List.append_nil, List.append_nil]) rfl [] (qJ0_length G.eo hSt hj) (hSt.recv G hj) hg rfl hdJ0_length hR hrest rfl hc rfl rfl d (fun r s hp hn => by subst hp; exact k)
theorem r_strat (G : Cx w D (tyA κ) E l Γ cc own Ts nL R) (hSt : SOk E kK kV) {j index : Nat} {i : Int32} (hj : j < 3) (hi : vin i (slen.getD j 0) = true) (hg : GoodIn Ts (wsV own index RJ0 yJ0_charAt_5068e wsJ0_charAt_5068e)) (hR : rmJS3.frames + 1 ≤ R.frames ∧ 8 + (2 + 11) + rmJS3.locals ≤ R.locals) (hrest : (rest.map fun v => v.category).sum ≤ 8) (hc : cells ≤ R.cells ∧ slots ≤ R.slots) (d : decode cc pc = .ok (.invokevirtual index, 3)) (k : V w D Γ st cells slots (pc + 3) lv (.int (fS_at j i) :: rest)) : V w D Γ st cells slots pc lv (.int i :: .ref (kK j) :: rest) :=
  e_callViR (u := eW) (su := ()) (P := w st) (Q := []) G (fun _ : Unit => st) (fun _ => by rw [show eW () = [] from rfl, List.append_nil, List.append_nil]) rfl [.int i] (qJ0_charAt G.eo hSt hj hi) (hSt.recv G hj) hg rfl hdJ0_charAt hR hrest rfl hc rfl rfl d (fun r s hp hn => by subst hp; exact k)
end VSX
