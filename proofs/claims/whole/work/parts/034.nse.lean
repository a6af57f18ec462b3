/-! ===== throw new NoSuchElementException("text"): its constructor calls the one above by entry 13, so the kit's vx_throwS doesn't take it ===== -/
theorem nse_own {args : Array Value} {s : State} {own : String} {ic : Nat} (h1 : ∀ w ∈ nse_at own ic, w.before args s = true)
    (hU : (Cond.isRef (.static Bundle.tN "UNASSIGNED_STACK" Bundle.steD)).before args s = true) (hN : (Cond.isRef (.static Bundle.tN "SUPPRESSED_SENTINEL" Bundle.listD)).before args s = true)
    (lU : (Cond.laysStatic Bundle.tN "UNASSIGNED_STACK" Bundle.steD).before args s = true) (lN : (Cond.laysStatic Bundle.tN "SUPPRESSED_SENTINEL" Bundle.listD).before args s = true) : ∀ w ∈ Bundle.ownAtomsX own ic "java/util/NoSuchElementException" 13 nse_rx ["java/lang/RuntimeException", "java/lang/Exception"], w.before args s = true :=
  vx_own (L := Bundle.ownAtomsX own ic "java/util/NoSuchElementException" 13 nse_rx ["java/lang/RuntimeException", "java/lang/Exception"]) h1 hU hN lU lN
section NSE
variable {p : Program} {l : Launch} {e : Env} {R : Room} {s : State} {m₀ : MethodId} {args : Array Value} {below : List Frame} {meth : Method} {c : Code} {W0 : State} {locs : List Loc} {cells slots : Nat}
set_option maxHeartbeats 4000000 in
theorem nse_ctor (X : Stand p l e R s m₀ args below meth c W0 locs cells slots) (hexec : p.tables.exec = Jvm.exec) (htr : e.platform.stackTraces = false) {own : String} {ic : Nat} (hown : s.vm.findClass own = some m₀.cls)
    (h : ∀ a ∈ Bundle.ownAtomsX own ic "java/util/NoSuchElementException" 13 nse_rx ["java/lang/RuntimeException", "java/lang/Exception"], a.before args s = true)
    (hlocs : ∀ x ∈ locs, ∀ cell, s.heap[x.base]? = some cell → cell.vm.isStatics = false)
    {a : Addr} {cX : ClassId} {kX : Class} (hfoundX : s.vm.findClass "java/util/NoSuchElementException" = some cX) (hkX : s.vm.classes[cX]? = some kX) (hcell : W0.heap[a]? = some (freshCell cX kX)) (hnew : s.heap.size ≤ a)
    {msg : Value} (hmsg : msg.isRef = true) {g : JFrame} (hg : g.method = m₀) (hsize : g.locals.size = c.maxLocals) (hlocked : g.locked = none) (hentered : g.entered = []) {rest : List Value} (hstack : g.stack = msg :: .ref a :: .ref a :: rest)
    (hd6 : decode c.code g.pc = .ok (.invokespecial ic, 3)) (hd9 : decode c.code (g.pc + 3) = .ok (.athrow, 1)) (hout : ∀ x ∈ c.exceptionTable.toList, covers x (g.pc + 3) = false)
    (hRframes : 5 < R.frames) (hRlocals : 2 * g.monitorRoom + ((Value.ref a :: rest).map fun v => v.category).sum + 81 ≤ R.locals) (hlocks : meth.locks = false) :
    ∃ U : State, Steps p.tables e below (W0.setTop g) U ∧ U.status = .running ∧ Ended U below (.threw a) ∧ s.WarmedH U.vm ∧ s.sameButNew ({ U with vm := s.vm } : State) locs cells slots ∧
      ∃ ce, U.heap[a]? = some ce ∧ s.vm.findClass "java/util/NoSuchElementException" = some ce.cls ∧ ce.vm = .none := by
  have hpl : e.platform.magicAccessors = ({} : Platform).magicAccessors := by rw [X.admits.platform]
  obtain ⟨T, Z0, L, -, Y⟩ := ThrowableC.of_atoms (args := args) (by rw [X.admits.platform]) (by rw [X.admits.platform]) hpl (fun x hx => h x (by simp [Bundle.ownAtomsX, hx]))
  obtain ⟨Z, M, LZ, LM, hnZ⟩ := Init0T.ofS_atoms (args := args) hpl L Y (fun x hx => h x (by simp [Bundle.ownAtomsX, hx]))
  obtain ⟨P1, Ps, hlen, L1, hL, hP1m, hlink1, hlink⟩ := Bundle.chainSX (args := args) hpl hnZ (ix := 13) (rx := nse_rx) (by decide +kernel) (by decide +kernel) (by decide +kernel) (by decide +kernel) ["java/lang/RuntimeException", "java/lang/Exception"] "java/util/NoSuchElementException" (by decide +kernel) (by decide +kernel) (fun x hx => h x (by simp [Bundle.ownAtomsX, hx]))
  have hfound : s.vm.findClass "java/util/NoSuchElementException" = some P1.m.cls := findClass_of_methodNamed hP1m
  cases Option.some.inj (hfoundX.symm.trans hfound)
  obtain ⟨c1, kX', hc1, hk, hord, -, -, hn6⟩ := Cond.instantiable_spec (h (.instantiable "java/util/NoSuchElementException" 6) (by simp [Bundle.ownAtomsX]))
  cases Option.some.inj (hc1.symm.trans hfound)
  cases Option.some.inj (hkX.symm.trans hk)
  have hsel : ∀ (t : MethodName) (k : MethodId), (t = Bundle.tFill0 ∨ t = Bundle.tFill) → s.methodNamed? t = some k → selectMethod e.platform s.vm P1.m.cls k = .method k := by
    intro t k ht hk9
    have hw : (Cond.selects "java/util/NoSuchElementException" t t).before args s = true := by
      rcases ht with rfl | rfl
      · exact h _ (by simp [Bundle.ownAtomsX])
      · exact h _ (by simp [Bundle.ownAtomsX])
    obtain ⟨c2, r2, m2, q1, q2, q3, q4, -⟩ := Cond.selects_spec hw
    cases Option.some.inj (q1.symm.trans hfound)
    cases Option.some.inj (q2.symm.trans (State.methodFound?_of_named hk9 (by rcases ht with rfl | rfl <;> decide)))
    cases Option.some.inj (q3.symm.trans hk9)
    rw [Launch.admits_selectMethod X.admits]; exact q4
  have hsel0 := hsel _ _ (Or.inl rfl) Y.fill0
  have hselF := hsel _ _ (Or.inr rfl) Y.fill
  obtain ⟨cellS0, hcS0, hiss⟩ := Y.statics
  obtain ⟨u0, hu0⟩ := Cond.staticRefV Y.unassigned L.unassignedStatic L.statics hcS0 hiss (h (.isRef (.static Bundle.tN "UNASSIGNED_STACK" Bundle.steD)) (by simp [Bundle.ownAtomsX]))
  obtain ⟨sen, hsen⟩ := Cond.staticRefV Y.sentinel L.sentinelStatic L.statics hcS0 hiss (h (.isRef (.static Bundle.tN "SUPPRESSED_SENTINEL" Bundle.listD)) (by simp [Bundle.ownAtomsX]))
  obtain ⟨ci198, i198, fB, hk198, hg198, ha198, hsB, -, hnB, htB, hffB⟩ := Cond.ownField (t := .object "java/lang/Object") Y.found L.cls (by decide +kernel) (h (.fieldLink Bundle.tN 198 Bundle.tN "backtrace" "Ljava/lang/Object;") (by simp [Bundle.ownAtomsX])) (h (.lays Bundle.tN Bundle.tN "backtrace" "Ljava/lang/Object;") (by simp [Bundle.ownAtomsX])) e.platform hpl
  obtain ⟨cellS, hcS', heS, -, hkeep⟩ := X.same.2.2.2.2.2 T.aS cellS0 hcS0
  have hout' : ∀ i, (⟨T.aS, i⟩ : Loc) ∉ locs := fun i hmem => by
    have := hlocs _ hmem cellS0 hcS0
    rw [hiss] at this; cases this
  have hknownS : cellS.vm ≠ .unknown := by
    rw [heS]; intro hu
    rw [show cellS0.vm = .unknown from hu] at hiss
    cases hiss
  have hneS : T.aS ≠ a := Nat.ne_of_lt (Nat.lt_of_lt_of_le (Array.getElem?_eq_some_iff.mp hcS0).1 hnew)
  obtain ⟨iM, hffM⟩ := Y.msg
  obtain ⟨tyC, dC, hdC, hdnC⟩ := Cond.laysAt hfound hk Y.cause (h (.lays "java/util/NoSuchElementException" Bundle.tN "cause" "Ljava/lang/Throwable;") (by simp [Bundle.ownAtomsX]))
  obtain ⟨tyS, dS, hdS, hdnS⟩ := Cond.laysAt hfound hk Y.stack (h (.lays "java/util/NoSuchElementException" Bundle.tN "stackTrace" Bundle.steD) (by simp [Bundle.ownAtomsX]))
  obtain ⟨tyP, dP, hdP, hdnP⟩ := Cond.laysAt hfound hk Y.supp (h (.lays "java/util/NoSuchElementException" Bundle.tN "suppressedExceptions" Bundle.listD) (by simp [Bundle.ownAtomsX]))
  obtain ⟨tyM, dM, hdM, hdnM⟩ := Cond.laysAt hfound hk hffM (h (.lays "java/util/NoSuchElementException" Bundle.tN "detailMessage" "Ljava/lang/String;") (by simp [Bundle.ownAtomsX]))
  obtain ⟨tyB, dB, hdB, hdnB⟩ := Cond.laysAt hfound hk hffB (h (.lays "java/util/NoSuchElementException" Bundle.tN "backtrace" "Ljava/lang/Object;") (by simp [Bundle.ownAtomsX]))
  have bC := Cond.laysApart hdB hdC hdnB hdnC (by rw [hnB, Y.causeName]; decide)
  have bS := Cond.laysApart hdB hdS hdnB hdnS (by rw [hnB, Y.stackName]; decide)
  have bP := Cond.laysApart hdB hdP hdnB hdnP (by rw [hnB, Y.suppName]; decide)
  have hskip : SkipFacts T e.platform s (fun u => u) u0 ((preparedCellV T.toThrowableT (freshCell P1.m.cls kX) a u0 sen).withEntry W0.cur) :=
    ⟨{ ci198 := ci198, i198 := i198, fBack := fB }, ⟨hk198, hg198, ha198, hsB⟩, by
      have := fresh_default (c := P1.m.cls) tyB
      rw [htB] at this
      simpa [preparedCellV, Cell.setSlot, Cell.withEntry, Array.getElem?_setIfInBounds, bC, bS, bP, bC.symm, bS.symm, bP.symm, defaultValue] using this, fun _ _ => rfl⟩
  obtain ⟨tm, methC, cdC, kC, vm₁, hnC, -, -, -, -, -, -, -, hW₁, st1⟩ := Steps.initColdS (tb := p.tables) (e := e) (below := below) (s := s) (U := W0) X.here hexec X.warmed hpl hown (t := Bundle.initS "java/util/NoSuchElementException") rfl rfl (by decide +kernel)
    (h (.methodLink own ic (Bundle.initS "java/util/NoSuchElementException")) (by simp [Bundle.ownAtomsX])) (h (.instanceMethod (Bundle.initS "java/util/NoSuchElementException")) (by simp [Bundle.ownAtomsX, Bundle.chainSAtomsX, Bundle.passSAtoms])) (bytes := nse_rx) (maxL := 2) (h (.code (Bundle.initS "java/util/NoSuchElementException") nse_rx 2 none) (by simp [Bundle.ownAtomsX, Bundle.chainSAtomsX, Bundle.passSAtoms]))
    (f := g) hg (a := a) (msg := msg) (rest := .ref a :: rest) hstack hd6
  cases Option.some.inj (hnC.symm.trans hP1m)
  have X₁ := X.noted hW₁
  obtain ⟨vm₂, X₂, st2⟩ := X₁.ctorMessageOffV hexec (g := { g with stack := .ref a :: rest }) hg hsize T L Z LZ M LM (P1 :: Ps)
    (fun P hP => by rcases List.mem_cons.mp hP with rfl | hP; exact L1; exact hL P hP) ⟨hlink1, hlink⟩ (u0 := u0) (sen := sen) (self := a) hmsg (cell := freshCell P1.m.cls kX) (cellS := cellS)
    hcell (fun _ => by simp) (by simp) rfl rfl hsel0 hselF hcS' hneS hknownS (by rw [hkeep _ (hout' _)]; exact hu0) (by rw [hkeep _ (hout' _)]; exact hsen)
    (Takes.of_laid hk hord tyC (by rw [Y.causeType]; rfl)) (Takes.of_laid hk hord tyS (by rw [Y.stackType]; exact fits_refV_array _ u0)) (Takes.of_laid hk hord tyP (by rw [Y.suppType]; exact fits_refV_object _ sen))
    (Takes.of_laid hk hord tyM (by rw [Y.msgType]; exact fits_refV_object _ ⟨msg, hmsg⟩)) Y.objLocals hskip htr [] hd6
    (by simp only [List.length_cons, hlen]; simpa using hRframes) (by simp only [List.length_cons, hlen]; simpa using hRlocals)
  obtain ⟨hwalk, hrun, hended, hWU, hsame⟩ := X₂.athrowLeaves hexec (g := { g with stack := .ref a :: rest, pc := g.pc + 3 }) hg hlocked hentered hout (a := a) (rest := rest) rfl hd9
  have hlt : a < ((W0.setVm vm₁).setVm vm₂).heap.size := (Array.getElem?_eq_some_iff.mp hcell).1
  have hU := heapAt_setCell_self (s := (W0.setVm vm₁).setVm vm₂) (plainBareV T.toThrowableT (freshCell P1.m.cls kX) a u0 sen msg) hlt
  refine ⟨_, st1 _ (fun acts => ?_), hrun, hended, hWU, hsame.weaken (fun y hy hlt' => ?_) (Nat.le_refl _) (Nat.le_refl _), _, hU, hfound, rfl⟩
  · rw [doInvoke_state]
    exact st2 _ hwalk
  · rcases List.mem_append.mp hy with h1 | h1
    · exact h1
    · exfalso
      have hb : y.base = a := by
        simp only [List.mem_cons, List.not_mem_nil, or_false] at h1
        rcases h1 with rfl | rfl | rfl | rfl | rfl <;> rfl
      rw [hb] at hlt'
      exact Nat.not_lt.mpr hnew hlt'
end NSE
section VTN
variable {σ : Type} {w : σ → va_W} {D : va_G} {tys : List (ClassId × FieldType)} {E : evT} {l : Launch} {Γ : cxT} {cc : ByteArray} {own : String} {Ts : List Cond} {nL : Nat} {R : Room} {st : σ} {cells slots pc : Nat} {lv : List (Nat × Value)} {rest : List Value} {px : Nat → σ → Prop} {Qc : Array Value → State → Outcome → State → Prop}
set_option maxHeartbeats 4000000 in
theorem r_throwN (G : Cx w D tys E l Γ cc own Ts nL R) (X : Tx w D Γ R px Qc []) (hT : TOk E) (hfl : l.stackTraces = false) {ik isx ic : Nat} {text : String} (hk : Cond.classLink own ik (exN 3) ∈ Ts) (hini : Cond.initialized (exN 3) ∈ Ts) (ha : ∀ w ∈ (nse_at own ic).filter goodWord, w ∈ Ts)
    (ho : ∀ w ∈ nse_at own ic, vx_ot w = true) (hB : ∀ w ∈ (nse_at own ic).filter (fun w => !goodWord w), w ∈ thB) (hS9 : (own, isx, text) ∈ thS)
    (d0 : decode cc pc = .ok (.new ik, 3)) (d3 : decode cc (pc + 3) = .ok (.dup, 1)) (d4 : decode cc (pc + 4) = .ok (.ldc isx, 2)) (d6 : decode cc (pc + 6) = .ok (.invokespecial ic, 3)) (d9 : decode cc (pc + 9) = .ok (.athrow, 1))
    (hp : px 3 st) (hc : cells + 1 ≤ R.cells) (hs : slots + 6 ≤ R.slots) (hRf : 5 < R.frames) (hRl : (rest.map fun v => v.category).sum + 82 ≤ R.locals) : V w D Γ st cells slots pc lv rest := by
  intro H locs ls hl hP hS T hTH Z
  obtain ⟨eU, eN, eS, eB⟩ := hT _ _ _ G.ev
  obtain ⟨sa, hsa⟩ := eS _ hS9
  rw [X.1]
  have hat : ∀ w ∈ nse_at own ic, w.before (xg Γ) (xs Γ) = true := vx_hat (B := thB) (fun w hw => G.ts _ (ha w hw)) hB (fun w hw => va_Nw.use (thB_tab w hw) (eB w hw))
  have hc0 : cells + 1 ≤ (xR Γ).cells := by rw [G.hR]; exact hc
  have hs0 : slots + 6 ≤ (xR Γ).slots := by rw [G.hR]; exact hs
  have htr : (xe Γ).platform.stackTraces = false := (show (xe Γ).platform.stackTraces = (xl Γ).stackTraces by rw [Z.admits.platform]).trans (by rw [G.hL]; exact hfl)
  have Y := vx_rebase Z (R' := { frames := (xR Γ).frames, locals := (xR Γ).locals, cells := 1, slots := 6 }) (Nat.le_refl _) (Nat.le_refl _) hc0 hs0
  obtain ⟨s', hA⟩ : ∃ z, z = (T.setVm (xs Γ).vm).setFrames (.invoking (xm Γ) (xg Γ) :: (xb Γ)) := ⟨_, rfl⟩
  rw [← hA] at Y
  have hvm : s'.vm = (xs Γ).vm := by rw [hA]; rfl
  have hhp : s'.heap = H := by rw [hA]; exact hTH
  have hW0 : (xs Γ).WarmedH s'.vm := by rw [hvm]; exact State.WarmedH.refl (xs Γ)
  have hat' : ∀ w ∈ nse_at own ic, w.before (xg Γ) s' = true := fun w hw => vx_ot_at hW0 hvm.symm (ho w hw) (hat w hw)
  have hk' : (Cond.classLink own ik (exN 3)).before (xg Γ) s' = true := vx_ot_at hW0 hvm.symm rfl (G.ts _ hk)
  have hini' : (Cond.initialized (exN 3)).before (xg Γ) s' = true := vx_ot_at hW0 hvm.symm rfl (G.ts _ hini)
  have hU' : vx_Zq Bundle.tN "UNASSIGNED_STACK" Bundle.steD (xA Γ) s' s'.heap := by rw [hhp]; exact vx_Zq.moved hW0.alike (eU.kept hS.2.1)
  have hN' : vx_Zq Bundle.tN "SUPPRESSED_SENTINEL" Bundle.listD (xA Γ) s' s'.heap := by rw [hhp]; exact vx_Zq.moved hW0.alike (eN.kept hS.2.1)
  have h : ∀ w ∈ Bundle.ownAtomsX own ic "java/util/NoSuchElementException" 13 nse_rx ["java/lang/RuntimeException", "java/lang/Exception"], w.before (xg Γ) s' = true := nse_own hat' (vx_isRefq hU'.1) (vx_isRefq hN'.1) hU'.2.word hN'.2.word
  have hown' : s'.vm.findClass own = some (xm Γ).cls := by rw [hvm]; exact G.ow
  have hins : (Cond.instantiable "java/util/NoSuchElementException" 6).before (xg Γ) s' = true := h _ (by simp [Bundle.ownAtomsX])
  have hb := G.hb
  have hexec := G.hx
  obtain ⟨vm₁, cX, kX, hfX, hkX, -, -, X₁, st1⟩ := Y.newCold hexec (own := own) (C := "java/util/NoSuchElementException") (index := ik) (n := 6) hown' hk' hins hini'
    (g := F0 (xm Γ) pc ls rest) rfl (by rw [hb]; exact d0) (Nat.le_refl _) (Nat.le_refl _)
  generalize hT1 : (T.setVm vm₁).pushCell { cls := cX, slots := kX.instanceTypes.map defaultValue, vm := .none } = T1 at X₁ st1
  have hcat : (Value.ref T.heap.size).category = 1 := rfl
  have hcellA : T1.heap[T.heap.size]? = some (freshCell cX kX) := by rw [← hT1]; exact State.heap_pushCell_size _ _
  have d3' : decode (xc Γ).code (pc + 3) = .ok (.dup, 1) := by rw [hb]; exact d3
  have d4' : decode (xc Γ).code (pc + 4) = .ok (.ldc isx, 2) := by rw [hb]; exact d4
  have hstr' : vk_R own isx text sa s' := vk_R.warm hW0 hsa
  have hRl' : (rest.map fun v => v.category).sum + 82 ≤ (xR Γ).locals := by rw [G.hR]; exact hRl
  obtain ⟨U, hsteps, hrun, hend, hW, hsame, ce, hce, hOc, hOv⟩ := nse_ctor X₁ hexec htr (own := own) (ic := ic) hown' h (fun x hx => nomatch hx) hfX hkX hcellA (by rw [hhp, hTH]; exact Nat.le_refl _) (msg := .ref sa) rfl
    (g := { method := xm Γ, pc := pc + 6, locals := ls, stack := .ref sa :: .ref T.heap.size :: .ref T.heap.size :: rest, locked := none }) rfl (by rw [G.ml, ← G.n]; exact hl.1) rfl rfl (rest := rest) rfl
    (by rw [hb]; exact d6) (by rw [hb]; exact d9) (fun x hx => by rw [X.2.1] at hx; cases hx) (by show 5 < (xR Γ).frames; rw [G.hR]; exact hRf) (by show _ ≤ (xR Γ).locals; simp only [List.map_cons, List.sum_cons, hcat]; omega) X.2.2
  obtain ⟨f1, f2⟩ := vx_frame hsame
  rw [hhp] at f1 f2
  have hWs : (xs Γ).WarmedH U.vm := State.WarmedH.trans hW0 hW
  have hcl : (xs Γ).vm.findClass (exN 3) = some ce.cls := by
    rw [hvm] at hOc
    exact hOc
  have hall : (xs Γ).sameButNew ({ U with vm := (xs Γ).vm } : State) locs R.cells R.slots := by
    subst hA
    obtain ⟨e1, e2⟩ := hsame
    rw [State.setFrames_setFrames] at e1
    have h2 : (T.setVm (xs Γ).vm).sameButNew ({ U with vm := (xs Γ).vm } : State) [] (0 + 1) (0 + 6) := ⟨e1, e2⟩
    have h3 := Z.same.trans h2
    rw [List.append_nil] at h3
    exact h3.mono hc hs
  have hkept : ∀ q : Nat, q < H.size → U.heap[q]? = H[q]? := fun q hq => f2 q hq (fun z hz => nomatch hz)
  refine ⟨U, ?_, .threw T.heap.size, hrun, hend, Or.inr ⟨T.heap.size, rfl, exN 3, ce, locs, ⟨(3, st), hp, ⟨rfl, hP.kept (fun k9 q hq => hkept q.1 ((hP k9 q hq).lt))⟩, by unfold va_F; rw [G.H]; exact ⟨Nat.le_trans hS.1 f1, fun q h1 h2 => by rw [hkept q (Nat.lt_of_lt_of_le h1 hS.1)]; exact hS.2.1 q h1 h2⟩⟩, hce, hOv, hcl, hWs, hall, hS.2.2⟩⟩
  refine st1 _ ?_
  show Steps (xp Γ).tables (xe Γ) (xb Γ) (T1.setTop { method := xm Γ, pc := pc + 3, locals := ls, stack := .ref T.heap.size :: rest, locked := none }) _
  jvm_step X₁.here [X₁.here.top, hexec, d3', Value.category]
  exact X₁.ldcString hexec (own := own) (text := text) (index := isx) (a := sa) hown' hstr'.1 hstr'.2
    (g := { method := xm Γ, pc := pc + 4, locals := ls, stack := .ref T.heap.size :: .ref T.heap.size :: rest, locked := none }) rfl d4' _ hsteps
set_option maxHeartbeats 4000000 in
theorem r_throwNW (G : Cx w D tys E l Γ cc own Ts nL R) (X : Tx w D Γ R px Qc []) (hT : TOk E) (hfl : l.stackTraces = false) {ik isx ic : Nat} {text : String} (hk : Cond.classLink own ik (exN 3) ∈ Ts) (hini : Cond.initialized (exN 3) ∈ Ts) (ha : ∀ w ∈ (nse_at own ic).filter goodWord, w ∈ Ts)
    (ho : ∀ w ∈ nse_at own ic, vx_ot w = true) (hB : ∀ w ∈ (nse_at own ic).filter (fun w => !goodWord w), w ∈ thB) (hS9 : (own, isx, text) ∈ thS)
    (d0 : decode cc pc = .ok (.new ik, 3)) (d3 : decode cc (pc + 3) = .ok (.dup, 1)) (d4 : decode cc (pc + 4) = .ok (.ldc_w isx, 3)) (d6 : decode cc (pc + 7) = .ok (.invokespecial ic, 3)) (d9 : decode cc (pc + 10) = .ok (.athrow, 1))
    (hp : px 3 st) (hc : cells + 1 ≤ R.cells) (hs : slots + 6 ≤ R.slots) (hRf : 5 < R.frames) (hRl : (rest.map fun v => v.category).sum + 82 ≤ R.locals) : V w D Γ st cells slots pc lv rest := by
  intro H locs ls hl hP hS T hTH Z
  obtain ⟨eU, eN, eS, eB⟩ := hT _ _ _ G.ev
  obtain ⟨sa, hsa⟩ := eS _ hS9
  rw [X.1]
  have hat : ∀ w ∈ nse_at own ic, w.before (xg Γ) (xs Γ) = true := vx_hat (B := thB) (fun w hw => G.ts _ (ha w hw)) hB (fun w hw => va_Nw.use (thB_tab w hw) (eB w hw))
  have hc0 : cells + 1 ≤ (xR Γ).cells := by rw [G.hR]; exact hc
  have hs0 : slots + 6 ≤ (xR Γ).slots := by rw [G.hR]; exact hs
  have htr : (xe Γ).platform.stackTraces = false := (show (xe Γ).platform.stackTraces = (xl Γ).stackTraces by rw [Z.admits.platform]).trans (by rw [G.hL]; exact hfl)
  have Y := vx_rebase Z (R' := { frames := (xR Γ).frames, locals := (xR Γ).locals, cells := 1, slots := 6 }) (Nat.le_refl _) (Nat.le_refl _) hc0 hs0
  obtain ⟨s', hA⟩ : ∃ z, z = (T.setVm (xs Γ).vm).setFrames (.invoking (xm Γ) (xg Γ) :: (xb Γ)) := ⟨_, rfl⟩
  rw [← hA] at Y
  have hvm : s'.vm = (xs Γ).vm := by rw [hA]; rfl
  have hhp : s'.heap = H := by rw [hA]; exact hTH
  have hW0 : (xs Γ).WarmedH s'.vm := by rw [hvm]; exact State.WarmedH.refl (xs Γ)
  have hat' : ∀ w ∈ nse_at own ic, w.before (xg Γ) s' = true := fun w hw => vx_ot_at hW0 hvm.symm (ho w hw) (hat w hw)
  have hk' : (Cond.classLink own ik (exN 3)).before (xg Γ) s' = true := vx_ot_at hW0 hvm.symm rfl (G.ts _ hk)
  have hini' : (Cond.initialized (exN 3)).before (xg Γ) s' = true := vx_ot_at hW0 hvm.symm rfl (G.ts _ hini)
  have hU' : vx_Zq Bundle.tN "UNASSIGNED_STACK" Bundle.steD (xA Γ) s' s'.heap := by rw [hhp]; exact vx_Zq.moved hW0.alike (eU.kept hS.2.1)
  have hN' : vx_Zq Bundle.tN "SUPPRESSED_SENTINEL" Bundle.listD (xA Γ) s' s'.heap := by rw [hhp]; exact vx_Zq.moved hW0.alike (eN.kept hS.2.1)
  have h : ∀ w ∈ Bundle.ownAtomsX own ic "java/util/NoSuchElementException" 13 nse_rx ["java/lang/RuntimeException", "java/lang/Exception"], w.before (xg Γ) s' = true := nse_own hat' (vx_isRefq hU'.1) (vx_isRefq hN'.1) hU'.2.word hN'.2.word
  have hown' : s'.vm.findClass own = some (xm Γ).cls := by rw [hvm]; exact G.ow
  have hins : (Cond.instantiable "java/util/NoSuchElementException" 6).before (xg Γ) s' = true := h _ (by simp [Bundle.ownAtomsX])
  have hb := G.hb
  have hexec := G.hx
  obtain ⟨vm₁, cX, kX, hfX, hkX, -, -, X₁, st1⟩ := Y.newCold hexec (own := own) (C := "java/util/NoSuchElementException") (index := ik) (n := 6) hown' hk' hins hini'
    (g := F0 (xm Γ) pc ls rest) rfl (by rw [hb]; exact d0) (Nat.le_refl _) (Nat.le_refl _)
  generalize hT1 : (T.setVm vm₁).pushCell { cls := cX, slots := kX.instanceTypes.map defaultValue, vm := .none } = T1 at X₁ st1
  have hcat : (Value.ref T.heap.size).category = 1 := rfl
  have hcellA : T1.heap[T.heap.size]? = some (freshCell cX kX) := by rw [← hT1]; exact State.heap_pushCell_size _ _
  have d3' : decode (xc Γ).code (pc + 3) = .ok (.dup, 1) := by rw [hb]; exact d3
  have d4' : decode (xc Γ).code (pc + 4) = .ok (.ldc_w isx, 3) := by rw [hb]; exact d4
  have hstr' : vk_R own isx text sa s' := vk_R.warm hW0 hsa
  have hRl' : (rest.map fun v => v.category).sum + 82 ≤ (xR Γ).locals := by rw [G.hR]; exact hRl
  obtain ⟨U, hsteps, hrun, hend, hW, hsame, ce, hce, hOc, hOv⟩ := nse_ctor X₁ hexec htr (own := own) (ic := ic) hown' h (fun x hx => nomatch hx) hfX hkX hcellA (by rw [hhp, hTH]; exact Nat.le_refl _) (msg := .ref sa) rfl
    (g := { method := xm Γ, pc := pc + 7, locals := ls, stack := .ref sa :: .ref T.heap.size :: .ref T.heap.size :: rest, locked := none }) rfl (by rw [G.ml, ← G.n]; exact hl.1) rfl rfl (rest := rest) rfl
    (by rw [hb]; exact d6) (by rw [hb]; exact d9) (fun x hx => by rw [X.2.1] at hx; cases hx) (by show 5 < (xR Γ).frames; rw [G.hR]; exact hRf) (by show _ ≤ (xR Γ).locals; simp only [List.map_cons, List.sum_cons, hcat]; omega) X.2.2
  obtain ⟨f1, f2⟩ := vx_frame hsame
  rw [hhp] at f1 f2
  have hWs : (xs Γ).WarmedH U.vm := State.WarmedH.trans hW0 hW
  have hcl : (xs Γ).vm.findClass (exN 3) = some ce.cls := by
    rw [hvm] at hOc
    exact hOc
  have hall : (xs Γ).sameButNew ({ U with vm := (xs Γ).vm } : State) locs R.cells R.slots := by
    subst hA
    obtain ⟨e1, e2⟩ := hsame
    rw [State.setFrames_setFrames] at e1
    have h2 : (T.setVm (xs Γ).vm).sameButNew ({ U with vm := (xs Γ).vm } : State) [] (0 + 1) (0 + 6) := ⟨e1, e2⟩
    have h3 := Z.same.trans h2
    rw [List.append_nil] at h3
    exact h3.mono hc hs
  have hkept : ∀ q : Nat, q < H.size → U.heap[q]? = H[q]? := fun q hq => f2 q hq (fun z hz => nomatch hz)
  refine ⟨U, ?_, .threw T.heap.size, hrun, hend, Or.inr ⟨T.heap.size, rfl, exN 3, ce, locs, ⟨(3, st), hp, ⟨rfl, hP.kept (fun k9 q hq => hkept q.1 ((hP k9 q hq).lt))⟩, by unfold va_F; rw [G.H]; exact ⟨Nat.le_trans hS.1 f1, fun q h1 h2 => by rw [hkept q (Nat.lt_of_lt_of_le h1 hS.1)]; exact hS.2.1 q h1 h2⟩⟩, hce, hOv, hcl, hWs, hall, hS.2.2⟩⟩
  refine st1 _ ?_
  show Steps (xp Γ).tables (xe Γ) (xb Γ) (T1.setTop { method := xm Γ, pc := pc + 3, locals := ls, stack := .ref T.heap.size :: rest, locked := none }) _
  jvm_step X₁.here [X₁.here.top, hexec, d3', Value.category]
  exact X₁.ldcStringW hexec (own := own) (text := text) (index := isx) (a := sa) hown' hstr'.1 hstr'.2
    (g := { method := xm Γ, pc := pc + 4, locals := ls, stack := .ref T.heap.size :: .ref T.heap.size :: rest, locked := none }) rfl d4' _ hsteps
end VTN
