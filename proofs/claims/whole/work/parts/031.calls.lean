/-! ===== contracts over such worlds, and calls by them ===== -/
/-- where a method begins: the world of st, the tables, cells apart, what else it stands on -/
def CG {σ : Type} (w : σ → va_W) (E : evT) (D : va_G) (tys : List (ClassId × FieldType)) (st : σ) (sz : Nat) (U : State) : Prop :=
  U.heap.size = sz ∧ va_P D vwCl (w st) U.heap ∧ va_K D vwCl tys U ∧ va_D (fun _ => True) (w st) ∧ E (va_A (w st) sz) U U.heap
/-- the addresses of a world are the same in each state -/
def WA {σ : Type} (w : σ → va_W) : Prop := ∀ st st' : σ, (w st).map Prod.fst = (w st').map Prod.fst
theorem CG_blind {σ : Type} {w : σ → va_W} {E : evT} {D : va_G} {tys : List (ClassId × FieldType)} {st : σ} {sz : Nat} {As : List Value} (hE : EvOk E) : FrameBlind (va_Pc As (CG w E D tys st sz)) := by
  intro a U g mk q
  obtain ⟨q0, q1, qP, qK, qD, qE⟩ := q
  exact ⟨q0, q1, qP, va_K.moved (u := U) (U := U.calling g mk a) (Vm.Alike.refl U.vm) qK, qD, hE.2.1 _ U _ _ rfl qE⟩
theorem WA_at {σ : Type} {w : σ → va_W} (h : WA w) (st st' : σ) {k : Nat} {q : Nat × va_E} (hk : (w st)[k]? = some q) : ∃ q', (w st')[k]? = some q' ∧ q'.1 = q.1 := by
  have h1 : ((w st).map Prod.fst)[k]? = some q.1 := by rw [List.getElem?_map, hk]; rfl
  rw [h st st', List.getElem?_map] at h1
  cases hk' : (w st')[k]? with
  | none => rw [hk'] at h1; cases h1
  | some q' => rw [hk'] at h1; exact ⟨q', rfl, Option.some.inj h1⟩
theorem WA_D {σ : Type} {w : σ → va_W} (h : WA w) {A : Nat → Prop} {st : σ} (hD : va_D A (w st)) (st' : σ) : va_D A (w st') := by
  refine ⟨fun i j p q hi hj hpq => ?_, fun k q hk => ?_⟩
  · obtain ⟨p', h1, h2⟩ := WA_at h st' st hi
    obtain ⟨q', h3, h4⟩ := WA_at h st' st hj
    exact hD.1 i j p' q' h1 h3 (by rw [h2, h4]; exact hpq)
  · obtain ⟨q', h1, h2⟩ := WA_at h st' st hk
    rw [← h2]
    exact hD.2 k q' h1
/-- a method that returns an int -/
def Ci {σ : Type} (l : Launch) (y : MethodName) (ws : List Cond) (rm : Room) (w : σ → va_W) (E : evT) (D : va_G) (tys : List (ClassId × FieldType)) (rt : FieldType) (As : List Value) (st : σ) (post : Int32 → σ → Prop) : Prop :=
  ∀ sz : Nat, Met l y ws rm (va_Pc As (CG w E D tys st sz)) (va_Qi (fun r st' => post r st' ∧ narrow rt (.int r) = .int r) (fun st' t => va_P D vwCl (w st') t.heap) (va_A (w st) sz)) rm.cells rm.slots (va_A (w st) sz)
/-- .. nothing -/
def Cv {σ : Type} (l : Launch) (y : MethodName) (ws : List Cond) (rm : Room) (w : σ → va_W) (E : evT) (D : va_G) (tys : List (ClassId × FieldType)) (As : List Value) (st : σ) (post : σ → Prop) : Prop :=
  ∀ sz : Nat, Met l y ws rm (va_Pc As (CG w E D tys st sz)) (va_Qv post (fun st' t => va_P D vwCl (w st') t.heap) (va_A (w st) sz)) rm.cells rm.slots (va_A (w st) sz)
/-- .. an object of the world, by its number -/
def Cr {σ : Type} (l : Launch) (y : MethodName) (ws : List Cond) (rm : Room) (w : σ → va_W) (E : evT) (D : va_G) (tys : List (ClassId × FieldType)) (ad : Nat → Nat) (As : List Value) (st : σ) (post : Nat → σ → Prop) : Prop :=
  ∀ sz : Nat, Met l y ws rm (va_Pc As (CG w E D tys st sz)) (va_Qr (fun u : Nat × σ => post u.1 u.2) (fun u a t => a = ad u.1 ∧ va_P D vwCl (w u.2) t.heap) (va_A (w st) sz)) rm.cells rm.slots (va_A (w st) sz)
/-- the exceptions, by a number -/
def exN (k : Nat) : String := if k = 1 then "java/lang/IndexOutOfBoundsException" else if k = 2 then "java/lang/IllegalArgumentException" else if k = 3 then "java/util/NoSuchElementException" else if k = 4 then "java/lang/IllegalStateException" else "java/lang/UnsupportedOperationException"
/-- a method that returns or throws -/
def Xi {σ : Type} (l : Launch) (y : MethodName) (ws : List Cond) (rm : Room) (w : σ → va_W) (E : evT) (D : va_G) (tys : List (ClassId × FieldType)) (rt : FieldType) (As : List Value) (st : σ) (post : Int32 → σ → Prop) (px : Nat → σ → Prop) : Prop :=
  ∀ sz : Nat, vx_Met l y ws rm (va_Pc As (CG w E D tys st sz)) (va_Qi (fun r st' => post r st' ∧ narrow rt (.int r) = .int r) (fun st' t => va_P D vwCl (w st') t.heap) (va_A (w st) sz)) (vx_X (fun u : Nat × σ => px u.1 u.2) (fun En u t => En = exN u.1 ∧ va_P D vwCl (w u.2) t.heap) (va_A (w st) sz)) rm.cells rm.slots (va_A (w st) sz)
def Xv {σ : Type} (l : Launch) (y : MethodName) (ws : List Cond) (rm : Room) (w : σ → va_W) (E : evT) (D : va_G) (tys : List (ClassId × FieldType)) (As : List Value) (st : σ) (post : σ → Prop) (px : Nat → σ → Prop) : Prop :=
  ∀ sz : Nat, vx_Met l y ws rm (va_Pc As (CG w E D tys st sz)) (va_Qv post (fun st' t => va_P D vwCl (w st') t.heap) (va_A (w st) sz)) (vx_X (fun u : Nat × σ => px u.1 u.2) (fun En u t => En = exN u.1 ∧ va_P D vwCl (w u.2) t.heap) (va_A (w st) sz)) rm.cells rm.slots (va_A (w st) sz)
def Xr {σ : Type} (l : Launch) (y : MethodName) (ws : List Cond) (rm : Room) (w : σ → va_W) (E : evT) (D : va_G) (tys : List (ClassId × FieldType)) (ad : Nat → Nat) (As : List Value) (st : σ) (post : Nat → σ → Prop) (px : Nat → σ → Prop) : Prop :=
  ∀ sz : Nat, vx_Met l y ws rm (va_Pc As (CG w E D tys st sz)) (va_Qr (fun u : Nat × σ => post u.1 u.2) (fun u a t => a = ad u.1 ∧ va_P D vwCl (w u.2) t.heap) (va_A (w st) sz)) (vx_X (fun u : Nat × σ => px u.1 u.2) (fun En u t => En = exN u.1 ∧ va_P D vwCl (w u.2) t.heap) (va_A (w st) sz)) rm.cells rm.slots (va_A (w st) sz)
/-- the frame with an exception of that name thrown over it -/
def VX {σ : Type} (w : σ → va_W) (D : va_G) (Γ : cxT) (st : σ) (cells slots pc : Nat) (lv : List (Nat × Value)) (stk : List Value) (En : String) : Prop :=
  ∀ (H : Heap) (locs : List Loc) (ls : Array Slot) (q : Addr) (ce : Cell), lv_has ls (xn Γ) lv → va_P D vwCl (w st) H → va_S (xA Γ) (xH Γ) H locs → H[q]? = some ce → ce.vm = .none → (xs Γ).vm.findClass En = some ce.cls →
    vx_W (xp Γ) (xl Γ) (xe Γ) (xR Γ) (xs Γ) (xm Γ) (xg Γ) (xb Γ) (xt Γ) (xc Γ) H locs cells slots (xQ Γ) (F0 (xm Γ) pc ls stk) q
section VCL
variable {σ : Type} {w : σ → va_W} {D : va_G} {tys : List (ClassId × FieldType)} {E : evT} {l : Launch} {Γ : cxT} {cc : ByteArray} {own : String} {Ts : List Cond} {nL : Nat} {R : Room} {st : σ} {cells slots pc : Nat} {lv : List (Nat × Value)} {rest : List Value}
theorem Cx.free (G : Cx w D tys E l Γ cc own Ts nL R) {H : Heap} {locs : List Loc} (hS : va_S (xA Γ) (xH Γ) H locs) (st : σ) : ∀ q, va_A (w st) H.size q → xA Γ q := by
  intro q h
  rcases h with ⟨k, e, h⟩ | h
  · exact (G.hD st).2 k (q, e) h
  · exact G.A q (Nat.le_trans hS.1 h)
theorem Cx.pre (G : Cx w D tys E l Γ cc own Ts nL R) {H : Heap} {locs : List Loc} (hP : va_P D vwCl (w st) H) (hS : va_S (xA Γ) (xH Γ) H locs) : ∀ U : State, U.heap = H → (xs Γ).WarmedH U.vm → CG w E D tys st H.size U := by
  intro U hU hW
  refine ⟨by rw [hU], by rw [hU]; exact hP, va_K.moved hW.alike G.K, (G.hD st).weaken (fun _ _ _ _ => trivial), ?_⟩
  rw [hU]
  exact G.eo.1 _ _ _ _ hW (G.eo.2.2.2 _ _ _ _ (G.eo.2.2.1 _ _ _ _ G.ev (fun a h1 h2 => hS.2.1 a h1 h2)) (G.free hS st))
/-- an object of the world is one of its class -/
def Rv (w : σ → va_W) (st : σ) (b : Nat) (C : String) : Prop := ∃ (q0 ci : Nat) (q : vw_C) (fs : List Value), vwCl[ci]? = some q ∧ (w st)[q0]? = some (b, .inr (ci, fs)) ∧ q.1 = C
theorem Rv.recv {b : Nat} {C : String} (h : Rv w st b C) (G : Cx w D tys E l Γ cc own Ts nL R) {H : Heap} (hP : va_P D vwCl (w st) H) : ∃ cell : Cell, H[b]? = some cell ∧ cell.vm.isStatics = false ∧ (xs Γ).vm.findClass C = some cell.cls := by
  obtain ⟨q0, ci, q, fs, h1, h2, rfl⟩ := h
  exact va_recv G.K hP h1 h2
theorem r_callVi (G : Cx w D tys E l Γ cc own Ts nL R) {y : MethodName} {bytes : ByteArray} {rt : FieldType} {maxL index : Nat} {ret : Option FieldType} {ws ws' : List Cond} {rm : Room} {C : String} {b : Nat} {post : Int32 → σ → Prop} {c2 s2 : Nat} {stk : List Value} (As : List Value) (hM : Ci l y ws rm w E D tys rt (.ref b :: As) st post) (hv : Rv w st b C) (hg : GoodIn Ts (wsV own index C y ws)) (hws : ws = Cond.code y bytes maxL ret :: ws') (hd : y.cls = C ∧ y.cls ≠ "java/lang/invoke/MethodHandle" ∧ y.cls ≠ "java/lang/invoke/VarHandle" ∧ (parseMethodDescriptor y.desc).map (fun d => d.parameters.length) = some As.length) (hR : rm.frames + 1 ≤ R.frames ∧ 8 + (maxL + 11) + rm.locals ≤ R.locals) (hrest : (rest.map fun v => v.category).sum ≤ 8) (hstk : stk = As.reverse ++ .ref b :: rest) (hc : c2 ≤ R.cells ∧ s2 ≤ R.slots) (hc2 : cells + rm.cells = c2) (hs2 : slots + rm.slots = s2) (d : decode cc pc = .ok (.invokevirtual index, 3)) (k : ∀ (r : Int32) (st2 : σ), post r st2 → narrow rt (.int r) = .int r → V w D Γ st2 c2 s2 (pc + 3) lv (.int r :: rest)) : V w D Γ st cells slots pc lv stk := by
  subst hc2; subst hs2; subst hstk
  intro H locs ls hl hP hS
  have hFA := G.free hS st
  have hM1 := hM H.size
  rw [← G.hL] at hM1
  refine va_calli (va_runV (As := As) (rest := rest) ⟨G.hx, G.hb, G.ml, G.ow, G.ts⟩ hM1 (cwV As.length G.ts hg hws rfl rfl hd (by rw [G.hR]; exact hR)) ⟨CG_blind G.eo, hv.recv G hP, fun U hU hW => ⟨rfl, G.pre hP hS U hU hW⟩⟩ rfl rfl (by rw [← G.n]; exact hl.1) rfl (lv_room hrest) d (by rw [G.hR]; exact hc)) hS (fun q _ h => hFA q h) hFA (fun r u t H1 locs1 ht hvm hw hB hz1 hk1 hS1 => k r u hw.1 hw.2 H1 locs1 ls hl (ht ▸ hB) hS1)
theorem r_callVix (G : Cx w D tys E l Γ cc own Ts nL R) {y : MethodName} {bytes : ByteArray} {rt : FieldType} {maxL index : Nat} {ret : Option FieldType} {ws ws' : List Cond} {rm : Room} {C : String} {b : Nat} {post : Int32 → σ → Prop} {px : Nat → σ → Prop} {c2 s2 : Nat} {stk : List Value} (As : List Value) (hM : Xi l y ws rm w E D tys rt (.ref b :: As) st post px) (hv : Rv w st b C) (hg : GoodIn Ts (wsV own index C y ws)) (hws : ws = Cond.code y bytes maxL ret :: ws') (hd : y.cls = C ∧ y.cls ≠ "java/lang/invoke/MethodHandle" ∧ y.cls ≠ "java/lang/invoke/VarHandle" ∧ (parseMethodDescriptor y.desc).map (fun d => d.parameters.length) = some As.length) (hR : rm.frames + 1 ≤ R.frames ∧ 8 + (maxL + 11) + rm.locals ≤ R.locals) (hrest : (rest.map fun v => v.category).sum ≤ 8) (hstk : stk = As.reverse ++ .ref b :: rest) (hc : c2 ≤ R.cells ∧ s2 ≤ R.slots) (hc2 : cells + rm.cells = c2) (hs2 : slots + rm.slots = s2) (d : decode cc pc = .ok (.invokevirtual index, 3)) (kx : ∀ (e : Nat) (st2 : σ), px e st2 → VX w D Γ st2 c2 s2 pc lv rest (exN e)) (k : ∀ (r : Int32) (st2 : σ), post r st2 → narrow rt (.int r) = .int r → V w D Γ st2 c2 s2 (pc + 3) lv (.int r :: rest)) : V w D Γ st cells slots pc lv stk := by
  subst hc2; subst hs2; subst hstk
  intro H locs ls hl hP hS
  have hFA := G.free hS st
  have hM1 := hM H.size
  rw [← G.hL] at hM1
  refine vx_calli (vx_runV (As := As) (rest := rest) ⟨G.hx, G.hb, G.ml, G.ow, G.ts⟩ hM1 (cwV As.length G.ts hg hws rfl rfl hd (by rw [G.hR]; exact hR)) ⟨CG_blind G.eo, hv.recv G hP, fun U hU hW => ⟨rfl, G.pre hP hS U hU hW⟩⟩ rfl rfl (by rw [← G.n]; exact hl.1) rfl (lv_room hrest) d (by rw [G.hR]; exact hc)) hS (fun q _ h => hFA q h) hFA (fun q _ h => hFA q h) (fun En ce q9 u t H1 locs1 ht hvm hw hB hz1 hk1 hS1 hce hcv hcl => by
    obtain ⟨rfl, hB⟩ := hB
    exact kx u.1 u.2 hw H1 locs1 ls q9 ce hl (ht ▸ hB) hS1 hce hcv hcl) (fun r u t H1 locs1 ht hvm hw hB hz1 hk1 hS1 => k r u hw.1 hw.2 H1 locs1 ls hl (ht ▸ hB) hS1)
theorem r_callSi (G : Cx w D tys E l Γ cc own Ts nL R) {y : MethodName} {bytes : ByteArray} {rt : FieldType} {maxL index : Nat} {ret : Option FieldType} {ws ws' : List Cond} {rm : Room} {post : Int32 → σ → Prop} {c2 s2 : Nat} {stk : List Value} (As : List Value) (hM : Ci l y ws rm w E D tys rt As st post) (hg : GoodIn Ts (va_wsS own index y ws)) (hws : ws = Cond.code y bytes maxL ret :: ws') (hd : y.cls ≠ "java/lang/invoke/MethodHandle" ∧ y.cls ≠ "java/lang/invoke/VarHandle" ∧ (parseMethodDescriptor y.desc).map (fun d => d.parameters.length) = some As.length) (hR : rm.frames + 1 ≤ R.frames ∧ 8 + (maxL + 11) + rm.locals ≤ R.locals) (hrest : (rest.map fun v => v.category).sum ≤ 8) (hstk : stk = As.reverse ++ rest) (hc : c2 ≤ R.cells ∧ s2 ≤ R.slots) (hc2 : cells + rm.cells = c2) (hs2 : slots + rm.slots = s2) (d : decode cc pc = .ok (.invokestatic index, 3)) (k : ∀ (r : Int32) (st2 : σ), post r st2 → narrow rt (.int r) = .int r → V w D Γ st2 c2 s2 (pc + 3) lv (.int r :: rest)) : V w D Γ st cells slots pc lv stk := by
  subst hc2; subst hs2; subst hstk
  intro H locs ls hl hP hS
  have hFA := G.free hS st
  have hM1 := hM H.size
  rw [← G.hL] at hM1
  refine va_calli (va_runS (As := As) (rest := rest) ⟨G.hx, G.hb, G.ml, G.ow, G.ts⟩ hM1 (va_cwS As.length G.ts hg hws rfl rfl hd (by rw [G.hR]; exact hR)) ⟨CG_blind G.eo, fun U hU hW => ⟨rfl, G.pre hP hS U hU hW⟩⟩ rfl rfl (by rw [← G.n]; exact hl.1) rfl (lv_room hrest) d (by rw [G.hR]; exact hc)) hS (fun q _ h => hFA q h) hFA (fun r u t H1 locs1 ht hvm hw hB hz1 hk1 hS1 => k r u hw.1 hw.2 H1 locs1 ls hl (ht ▸ hB) hS1)
theorem r_callSix (G : Cx w D tys E l Γ cc own Ts nL R) {y : MethodName} {bytes : ByteArray} {rt : FieldType} {maxL index : Nat} {ret : Option FieldType} {ws ws' : List Cond} {rm : Room} {post : Int32 → σ → Prop} {px : Nat → σ → Prop} {c2 s2 : Nat} {stk : List Value} (As : List Value) (hM : Xi l y ws rm w E D tys rt As st post px) (hg : GoodIn Ts (va_wsS own index y ws)) (hws : ws = Cond.code y bytes maxL ret :: ws') (hd : y.cls ≠ "java/lang/invoke/MethodHandle" ∧ y.cls ≠ "java/lang/invoke/VarHandle" ∧ (parseMethodDescriptor y.desc).map (fun d => d.parameters.length) = some As.length) (hR : rm.frames + 1 ≤ R.frames ∧ 8 + (maxL + 11) + rm.locals ≤ R.locals) (hrest : (rest.map fun v => v.category).sum ≤ 8) (hstk : stk = As.reverse ++ rest) (hc : c2 ≤ R.cells ∧ s2 ≤ R.slots) (hc2 : cells + rm.cells = c2) (hs2 : slots + rm.slots = s2) (d : decode cc pc = .ok (.invokestatic index, 3)) (kx : ∀ (e : Nat) (st2 : σ), px e st2 → VX w D Γ st2 c2 s2 pc lv rest (exN e)) (k : ∀ (r : Int32) (st2 : σ), post r st2 → narrow rt (.int r) = .int r → V w D Γ st2 c2 s2 (pc + 3) lv (.int r :: rest)) : V w D Γ st cells slots pc lv stk := by
  subst hc2; subst hs2; subst hstk
  intro H locs ls hl hP hS
  have hFA := G.free hS st
  have hM1 := hM H.size
  rw [← G.hL] at hM1
  refine vx_calli (vx_runS (As := As) (rest := rest) ⟨G.hx, G.hb, G.ml, G.ow, G.ts⟩ hM1 (va_cwS As.length G.ts hg hws rfl rfl hd (by rw [G.hR]; exact hR)) ⟨CG_blind G.eo, fun U hU hW => ⟨rfl, G.pre hP hS U hU hW⟩⟩ rfl rfl (by rw [← G.n]; exact hl.1) rfl (lv_room hrest) d (by rw [G.hR]; exact hc)) hS (fun q _ h => hFA q h) hFA (fun q _ h => hFA q h) (fun En ce q9 u t H1 locs1 ht hvm hw hB hz1 hk1 hS1 hce hcv hcl => by
    obtain ⟨rfl, hB⟩ := hB
    exact kx u.1 u.2 hw H1 locs1 ls q9 ce hl (ht ▸ hB) hS1 hce hcv hcl) (fun r u t H1 locs1 ht hvm hw hB hz1 hk1 hS1 => k r u hw.1 hw.2 H1 locs1 ls hl (ht ▸ hB) hS1)
theorem r_callVv (G : Cx w D tys E l Γ cc own Ts nL R) {y : MethodName} {bytes : ByteArray} {maxL index : Nat} {ret : Option FieldType} {ws ws' : List Cond} {rm : Room} {C : String} {b : Nat} {post : σ → Prop} {c2 s2 : Nat} {stk : List Value} (As : List Value) (hM : Cv l y ws rm w E D tys (.ref b :: As) st post) (hv : Rv w st b C) (hg : GoodIn Ts (wsV own index C y ws)) (hws : ws = Cond.code y bytes maxL ret :: ws') (hd : y.cls = C ∧ y.cls ≠ "java/lang/invoke/MethodHandle" ∧ y.cls ≠ "java/lang/invoke/VarHandle" ∧ (parseMethodDescriptor y.desc).map (fun d => d.parameters.length) = some As.length) (hR : rm.frames + 1 ≤ R.frames ∧ 8 + (maxL + 11) + rm.locals ≤ R.locals) (hrest : (rest.map fun v => v.category).sum ≤ 8) (hstk : stk = As.reverse ++ .ref b :: rest) (hc : c2 ≤ R.cells ∧ s2 ≤ R.slots) (hc2 : cells + rm.cells = c2) (hs2 : slots + rm.slots = s2) (d : decode cc pc = .ok (.invokevirtual index, 3)) (k : ∀ (st2 : σ), post st2 → V w D Γ st2 c2 s2 (pc + 3) lv rest) : V w D Γ st cells slots pc lv stk := by
  subst hc2; subst hs2; subst hstk
  intro H locs ls hl hP hS
  have hFA := G.free hS st
  have hM1 := hM H.size
  rw [← G.hL] at hM1
  refine va_callv (va_runV (As := As) (rest := rest) ⟨G.hx, G.hb, G.ml, G.ow, G.ts⟩ hM1 (cwV As.length G.ts hg hws rfl rfl hd (by rw [G.hR]; exact hR)) ⟨CG_blind G.eo, hv.recv G hP, fun U hU hW => ⟨rfl, G.pre hP hS U hU hW⟩⟩ rfl rfl (by rw [← G.n]; exact hl.1) rfl (lv_room hrest) d (by rw [G.hR]; exact hc)) hS (fun q _ h => hFA q h) hFA (fun u t H1 locs1 ht hvm hw hB hz1 hk1 hS1 => k u hw H1 locs1 ls hl (ht ▸ hB) hS1)
theorem r_callVvx (G : Cx w D tys E l Γ cc own Ts nL R) {y : MethodName} {bytes : ByteArray} {maxL index : Nat} {ret : Option FieldType} {ws ws' : List Cond} {rm : Room} {C : String} {b : Nat} {post : σ → Prop} {px : Nat → σ → Prop} {c2 s2 : Nat} {stk : List Value} (As : List Value) (hM : Xv l y ws rm w E D tys (.ref b :: As) st post px) (hv : Rv w st b C) (hg : GoodIn Ts (wsV own index C y ws)) (hws : ws = Cond.code y bytes maxL ret :: ws') (hd : y.cls = C ∧ y.cls ≠ "java/lang/invoke/MethodHandle" ∧ y.cls ≠ "java/lang/invoke/VarHandle" ∧ (parseMethodDescriptor y.desc).map (fun d => d.parameters.length) = some As.length) (hR : rm.frames + 1 ≤ R.frames ∧ 8 + (maxL + 11) + rm.locals ≤ R.locals) (hrest : (rest.map fun v => v.category).sum ≤ 8) (hstk : stk = As.reverse ++ .ref b :: rest) (hc : c2 ≤ R.cells ∧ s2 ≤ R.slots) (hc2 : cells + rm.cells = c2) (hs2 : slots + rm.slots = s2) (d : decode cc pc = .ok (.invokevirtual index, 3)) (kx : ∀ (e : Nat) (st2 : σ), px e st2 → VX w D Γ st2 c2 s2 pc lv rest (exN e)) (k : ∀ (st2 : σ), post st2 → V w D Γ st2 c2 s2 (pc + 3) lv rest) : V w D Γ st cells slots pc lv stk := by
  subst hc2; subst hs2; subst hstk
  intro H locs ls hl hP hS
  have hFA := G.free hS st
  have hM1 := hM H.size
  rw [← G.hL] at hM1
  refine vx_callv (vx_runV (As := As) (rest := rest) ⟨G.hx, G.hb, G.ml, G.ow, G.ts⟩ hM1 (cwV As.length G.ts hg hws rfl rfl hd (by rw [G.hR]; exact hR)) ⟨CG_blind G.eo, hv.recv G hP, fun U hU hW => ⟨rfl, G.pre hP hS U hU hW⟩⟩ rfl rfl (by rw [← G.n]; exact hl.1) rfl (lv_room hrest) d (by rw [G.hR]; exact hc)) hS (fun q _ h => hFA q h) hFA (fun q _ h => hFA q h) (fun En ce q9 u t H1 locs1 ht hvm hw hB hz1 hk1 hS1 hce hcv hcl => by
    obtain ⟨rfl, hB⟩ := hB
    exact kx u.1 u.2 hw H1 locs1 ls q9 ce hl (ht ▸ hB) hS1 hce hcv hcl) (fun u t H1 locs1 ht hvm hw hB hz1 hk1 hS1 => k u hw H1 locs1 ls hl (ht ▸ hB) hS1)
theorem r_callSv (G : Cx w D tys E l Γ cc own Ts nL R) {y : MethodName} {bytes : ByteArray} {maxL index : Nat} {ret : Option FieldType} {ws ws' : List Cond} {rm : Room} {post : σ → Prop} {c2 s2 : Nat} {stk : List Value} (As : List Value) (hM : Cv l y ws rm w E D tys As st post) (hg : GoodIn Ts (va_wsS own index y ws)) (hws : ws = Cond.code y bytes maxL ret :: ws') (hd : y.cls ≠ "java/lang/invoke/MethodHandle" ∧ y.cls ≠ "java/lang/invoke/VarHandle" ∧ (parseMethodDescriptor y.desc).map (fun d => d.parameters.length) = some As.length) (hR : rm.frames + 1 ≤ R.frames ∧ 8 + (maxL + 11) + rm.locals ≤ R.locals) (hrest : (rest.map fun v => v.category).sum ≤ 8) (hstk : stk = As.reverse ++ rest) (hc : c2 ≤ R.cells ∧ s2 ≤ R.slots) (hc2 : cells + rm.cells = c2) (hs2 : slots + rm.slots = s2) (d : decode cc pc = .ok (.invokestatic index, 3)) (k : ∀ (st2 : σ), post st2 → V w D Γ st2 c2 s2 (pc + 3) lv rest) : V w D Γ st cells slots pc lv stk := by
  subst hc2; subst hs2; subst hstk
  intro H locs ls hl hP hS
  have hFA := G.free hS st
  have hM1 := hM H.size
  rw [← G.hL] at hM1
  refine va_callv (va_runS (As := As) (rest := rest) ⟨G.hx, G.hb, G.ml, G.ow, G.ts⟩ hM1 (va_cwS As.length G.ts hg hws rfl rfl hd (by rw [G.hR]; exact hR)) ⟨CG_blind G.eo, fun U hU hW => ⟨rfl, G.pre hP hS U hU hW⟩⟩ rfl rfl (by rw [← G.n]; exact hl.1) rfl (lv_room hrest) d (by rw [G.hR]; exact hc)) hS (fun q _ h => hFA q h) hFA (fun u t H1 locs1 ht hvm hw hB hz1 hk1 hS1 => k u hw H1 locs1 ls hl (ht ▸ hB) hS1)
theorem r_callSvx (G : Cx w D tys E l Γ cc own Ts nL R) {y : MethodName} {bytes : ByteArray} {maxL index : Nat} {ret : Option FieldType} {ws ws' : List Cond} {rm : Room} {post : σ → Prop} {px : Nat → σ → Prop} {c2 s2 : Nat} {stk : List Value} (As : List Value) (hM : Xv l y ws rm w E D tys As st post px) (hg : GoodIn Ts (va_wsS own index y ws)) (hws : ws = Cond.code y bytes maxL ret :: ws') (hd : y.cls ≠ "java/lang/invoke/MethodHandle" ∧ y.cls ≠ "java/lang/invoke/VarHandle" ∧ (parseMethodDescriptor y.desc).map (fun d => d.parameters.length) = some As.length) (hR : rm.frames + 1 ≤ R.frames ∧ 8 + (maxL + 11) + rm.locals ≤ R.locals) (hrest : (rest.map fun v => v.category).sum ≤ 8) (hstk : stk = As.reverse ++ rest) (hc : c2 ≤ R.cells ∧ s2 ≤ R.slots) (hc2 : cells + rm.cells = c2) (hs2 : slots + rm.slots = s2) (d : decode cc pc = .ok (.invokestatic index, 3)) (kx : ∀ (e : Nat) (st2 : σ), px e st2 → VX w D Γ st2 c2 s2 pc lv rest (exN e)) (k : ∀ (st2 : σ), post st2 → V w D Γ st2 c2 s2 (pc + 3) lv rest) : V w D Γ st cells slots pc lv stk := by
  subst hc2; subst hs2; subst hstk
  intro H locs ls hl hP hS
  have hFA := G.free hS st
  have hM1 := hM H.size
  rw [← G.hL] at hM1
  refine vx_callv (vx_runS (As := As) (rest := rest) ⟨G.hx, G.hb, G.ml, G.ow, G.ts⟩ hM1 (va_cwS As.length G.ts hg hws rfl rfl hd (by rw [G.hR]; exact hR)) ⟨CG_blind G.eo, fun U hU hW => ⟨rfl, G.pre hP hS U hU hW⟩⟩ rfl rfl (by rw [← G.n]; exact hl.1) rfl (lv_room hrest) d (by rw [G.hR]; exact hc)) hS (fun q _ h => hFA q h) hFA (fun q _ h => hFA q h) (fun En ce q9 u t H1 locs1 ht hvm hw hB hz1 hk1 hS1 hce hcv hcl => by
    obtain ⟨rfl, hB⟩ := hB
    exact kx u.1 u.2 hw H1 locs1 ls q9 ce hl (ht ▸ hB) hS1 hce hcv hcl) (fun u t H1 locs1 ht hvm hw hB hz1 hk1 hS1 => k u hw H1 locs1 ls hl (ht ▸ hB) hS1)
theorem r_callVr (G : Cx w D tys E l Γ cc own Ts nL R) {y : MethodName} {bytes : ByteArray} {maxL index : Nat} {ret : Option FieldType} {ws ws' : List Cond} {rm : Room} {C : String} {b : Nat} {ad : Nat → Nat} {post : Nat → σ → Prop} {c2 s2 : Nat} {stk : List Value} (As : List Value) (hM : Cr l y ws rm w E D tys ad (.ref b :: As) st post) (hv : Rv w st b C) (hg : GoodIn Ts (wsV own index C y ws)) (hws : ws = Cond.code y bytes maxL ret :: ws') (hd : y.cls = C ∧ y.cls ≠ "java/lang/invoke/MethodHandle" ∧ y.cls ≠ "java/lang/invoke/VarHandle" ∧ (parseMethodDescriptor y.desc).map (fun d => d.parameters.length) = some As.length) (hR : rm.frames + 1 ≤ R.frames ∧ 8 + (maxL + 11) + rm.locals ≤ R.locals) (hrest : (rest.map fun v => v.category).sum ≤ 8) (hstk : stk = As.reverse ++ .ref b :: rest) (hc : c2 ≤ R.cells ∧ s2 ≤ R.slots) (hc2 : cells + rm.cells = c2) (hs2 : slots + rm.slots = s2) (d : decode cc pc = .ok (.invokevirtual index, 3)) (k : ∀ (r : Nat) (st2 : σ), post r st2 → V w D Γ st2 c2 s2 (pc + 3) lv (.ref (ad r) :: rest)) : V w D Γ st cells slots pc lv stk := by
  subst hc2; subst hs2; subst hstk
  intro H locs ls hl hP hS
  have hFA := G.free hS st
  have hM1 := hM H.size
  rw [← G.hL] at hM1
  refine va_callr (va_runV (As := As) (rest := rest) ⟨G.hx, G.hb, G.ml, G.ow, G.ts⟩ hM1 (cwV As.length G.ts hg hws rfl rfl hd (by rw [G.hR]; exact hR)) ⟨CG_blind G.eo, hv.recv G hP, fun U hU hW => ⟨rfl, G.pre hP hS U hU hW⟩⟩ rfl rfl (by rw [← G.n]; exact hl.1) rfl (lv_room hrest) d (by rw [G.hR]; exact hc)) hS (fun q _ h => hFA q h) hFA (fun u ra t H1 locs1 ht hvm hw hB hz1 hk1 hS1 => by
    obtain ⟨rfl, hB⟩ := hB
    exact k u.1 u.2 hw H1 locs1 ls hl (ht ▸ hB) hS1)
theorem r_callSr (G : Cx w D tys E l Γ cc own Ts nL R) {y : MethodName} {bytes : ByteArray} {maxL index : Nat} {ret : Option FieldType} {ws ws' : List Cond} {rm : Room} {ad : Nat → Nat} {post : Nat → σ → Prop} {c2 s2 : Nat} {stk : List Value} (As : List Value) (hM : Cr l y ws rm w E D tys ad As st post) (hg : GoodIn Ts (va_wsS own index y ws)) (hws : ws = Cond.code y bytes maxL ret :: ws') (hd : y.cls ≠ "java/lang/invoke/MethodHandle" ∧ y.cls ≠ "java/lang/invoke/VarHandle" ∧ (parseMethodDescriptor y.desc).map (fun d => d.parameters.length) = some As.length) (hR : rm.frames + 1 ≤ R.frames ∧ 8 + (maxL + 11) + rm.locals ≤ R.locals) (hrest : (rest.map fun v => v.category).sum ≤ 8) (hstk : stk = As.reverse ++ rest) (hc : c2 ≤ R.cells ∧ s2 ≤ R.slots) (hc2 : cells + rm.cells = c2) (hs2 : slots + rm.slots = s2) (d : decode cc pc = .ok (.invokestatic index, 3)) (k : ∀ (r : Nat) (st2 : σ), post r st2 → V w D Γ st2 c2 s2 (pc + 3) lv (.ref (ad r) :: rest)) : V w D Γ st cells slots pc lv stk := by
  subst hc2; subst hs2; subst hstk
  intro H locs ls hl hP hS
  have hFA := G.free hS st
  have hM1 := hM H.size
  rw [← G.hL] at hM1
  refine va_callr (va_runS (As := As) (rest := rest) ⟨G.hx, G.hb, G.ml, G.ow, G.ts⟩ hM1 (va_cwS As.length G.ts hg hws rfl rfl hd (by rw [G.hR]; exact hR)) ⟨CG_blind G.eo, fun U hU hW => ⟨rfl, G.pre hP hS U hU hW⟩⟩ rfl rfl (by rw [← G.n]; exact hl.1) rfl (lv_room hrest) d (by rw [G.hR]; exact hc)) hS (fun q _ h => hFA q h) hFA (fun u ra t H1 locs1 ht hvm hw hB hz1 hk1 hS1 => by
    obtain ⟨rfl, hB⟩ := hB
    exact k u.1 u.2 hw H1 locs1 ls hl (ht ▸ hB) hS1)
/-- a call that may throw, and else answers an object (as the kit's vx_calli, for va_Qr) -/
theorem vy_callr {p : Program} {l : Launch} {e : Env} {R : Room} {s : State} {m : MethodId} {args : Array Value} {below : List Frame} {meth : Method} {c : Code} {H : Heap} {locs : List Loc} {cells slots : Nat} {Q : State → Prop} {mc ms : Nat} {free : Addr → Prop} {A0 A1 : Nat → Prop} {H0 : Heap} {a : Array Value} {pc : Nat} {ls : Array Slot} {st0 rest : List Value}
    {S SX : Type} {post : S → Prop} {px : SX → Prop} {B : S → Nat → State → Prop} {BX : String → SX → State → Prop} {AX : Nat → Prop} (hr : vx_Run p l e R s m args below meth c H locs cells slots mc ms (F0 m pc ls st0) rest (va_Qr post B A1 a) (vx_X px BX AX) free) (hS : va_S A0 H0 H locs) (hA : ∀ q, q < H.size → A1 q → A0 q) (hf : ∀ q, free q → A0 q) (hAX : ∀ q, q < H.size → AX q → A0 q)
    (kx : ∀ (E : String) (ce : Cell) (q9 : Addr) (u : SX) (t : State) (H1 : Heap) (locs1 : List Loc), t.heap = H1 → s.vm.Alike t.vm → px u → BX E u t → va_S A0 H0 H1 locs1 → H1[q9]? = some ce → ce.vm = .none → s.vm.findClass E = some ce.cls → vx_W p l e R s m args below meth c H1 locs1 (cells + mc) (slots + ms) Q (F0 m pc ls rest) q9)
    (kk : ∀ (u : S) (ra : Nat) (t : State) (H1 : Heap) (locs1 : List Loc), t.heap = H1 → s.vm.Alike t.vm → post u → B u ra t → va_S A0 H0 H1 locs1 → W p l e R s m args below meth c H1 locs1 (cells + mc) (slots + ms) Q (F0 m (pc + 3) ls (.ref ra :: rest))) : W p l e R s m args below meth c H locs cells slots Q (F0 m pc ls st0) := by
  intro T hT X
  rcases hr T hT X with ⟨v, st₀, t, T', L, h0, X', hL, e1, e2, ⟨⟨u, ra, hv, hp, hb⟩, hF⟩, st⟩ | ⟨q, st₀, t, T', L, E, ce, h0, X', hL, e1, e2, ⟨u, hp, hb, hF⟩, hce, hcv, hcl, st⟩
  · cases hv
    obtain ⟨k1, k2, k3⟩ := vx_keep h0 e1 hS hA hf hL hF
    obtain ⟨t2, a1, b1⟩ := kk u ra t T'.heap (locs ++ L) e1.symm (by rw [← e2]; exact X'.warmed.alike) hp hb k3 T' rfl X'
    exact ⟨t2, st t2 a1, b1⟩
  · obtain ⟨k1, k2, k3⟩ := vx_keep h0 e1 hS hAX hf hL hF
    obtain ⟨t2, a1, b1⟩ := kx E ce q u t T'.heap (locs ++ L) e1.symm (by rw [← e2]; exact X'.warmed.alike) hp hb k3 (by rw [e1]; exact hce) hcv hcl T' rfl X'
    exact ⟨t2, st.trans a1, b1⟩
theorem r_callVrx (G : Cx w D tys E l Γ cc own Ts nL R) {y : MethodName} {bytes : ByteArray} {maxL index : Nat} {ret : Option FieldType} {ws ws' : List Cond} {rm : Room} {C : String} {b : Nat} {ad : Nat → Nat} {post : Nat → σ → Prop} {px : Nat → σ → Prop} {c2 s2 : Nat} {stk : List Value} (As : List Value) (hM : Xr l y ws rm w E D tys ad (.ref b :: As) st post px) (hv : Rv w st b C) (hg : GoodIn Ts (wsV own index C y ws)) (hws : ws = Cond.code y bytes maxL ret :: ws') (hd : y.cls = C ∧ y.cls ≠ "java/lang/invoke/MethodHandle" ∧ y.cls ≠ "java/lang/invoke/VarHandle" ∧ (parseMethodDescriptor y.desc).map (fun d => d.parameters.length) = some As.length) (hR : rm.frames + 1 ≤ R.frames ∧ 8 + (maxL + 11) + rm.locals ≤ R.locals) (hrest : (rest.map fun v => v.category).sum ≤ 8) (hstk : stk = As.reverse ++ .ref b :: rest) (hc : c2 ≤ R.cells ∧ s2 ≤ R.slots) (hc2 : cells + rm.cells = c2) (hs2 : slots + rm.slots = s2) (d : decode cc pc = .ok (.invokevirtual index, 3)) (kx : ∀ (e : Nat) (st2 : σ), px e st2 → VX w D Γ st2 c2 s2 pc lv rest (exN e)) (k : ∀ (r : Nat) (st2 : σ), post r st2 → V w D Γ st2 c2 s2 (pc + 3) lv (.ref (ad r) :: rest)) : V w D Γ st cells slots pc lv stk := by
  subst hc2; subst hs2; subst hstk
  intro H locs ls hl hP hS
  have hFA := G.free hS st
  have hM1 := hM H.size
  rw [← G.hL] at hM1
  refine vy_callr (vx_runV (As := As) (rest := rest) ⟨G.hx, G.hb, G.ml, G.ow, G.ts⟩ hM1 (cwV As.length G.ts hg hws rfl rfl hd (by rw [G.hR]; exact hR)) ⟨CG_blind G.eo, hv.recv G hP, fun U hU hW => ⟨rfl, G.pre hP hS U hU hW⟩⟩ rfl rfl (by rw [← G.n]; exact hl.1) rfl (lv_room hrest) d (by rw [G.hR]; exact hc)) hS (fun q _ h => hFA q h) hFA (fun q _ h => hFA q h) (fun En ce q9 u t H1 locs1 ht hvm hw hB hS1 hce hcv hcl => by
    obtain ⟨rfl, hB⟩ := hB
    exact kx u.1 u.2 hw H1 locs1 ls q9 ce hl (ht ▸ hB) hS1 hce hcv hcl) (fun u ra t H1 locs1 ht hvm hw hB hS1 => by
    obtain ⟨rfl, hB⟩ := hB
    exact k u.1 u.2 hw H1 locs1 ls hl (ht ▸ hB) hS1)
end VCL
