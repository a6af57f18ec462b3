/-! ===== a method's start: what its walk has, and its ends ===== -/
/-- a contract out of a walk, for a class of the JDK too (the kit's Met.ofW, by the method's own name) -/
theorem Met_ofF {l : Launch} {y : MethodName} {ws ws' : List Cond} {rm : Room} {Pc : Array Value → State → Prop} {Qc : Array Value → State → Outcome → State → Prop} {mc ms : Nat} {free : Addr → Prop} {cc : ByteArray} {maxL : Nat} {ret : Option FieldType}
    (hy : plainFor y = true) (hw : ws = Cond.code y cc maxL ret :: ws')
    (body : ∀ p e s m args below meth c s₁, BodyLoose p l y (headSpec ws rm) cc maxL ret e s m args below meth c s₁ → c.maxLocals = maxL → Pc args s →
      W p l e (headSpec ws rm).room s m args below meth c s.heap [] 0 0 (MQ below Qc args s mc ms free) (entryFrame m args maxL)) : Met l y ws rm Pc Qc mc ms free := by
  refine MetFree.of_bodySF (code := cc) (maxLocals := maxL) (ret := ret) hy ?_ ?_
  · intro args s m h hn
    obtain ⟨meth, c, h1, h2, h3, h4, h5, h6, -, -⟩ := Cond.code_spec hn (atoms_spec (ws := ws) h _ (by rw [hw]; exact List.mem_cons_self))
    exact ⟨meth, c, h1, h2, h3, h4, h5, h6⟩
  · intro p e s m args below meth c s₁ B hml hP _
    have hh0 : s₁.heap = s.heap := by rw [B.state]; rfl
    obtain ⟨t, a1, o, b1, b2, b3⟩ := body p e s m args below meth c s₁ B hml hP s₁ hh0 (Stand.of_body B)
    exact ⟨t, o, a1, b1, b2, ⟨b3.1, b3.2⟩⟩
section VST
variable {σ : Type} {w : σ → va_W} {D : va_G} {tys : List (ClassId × FieldType)} {E : evT} {l : Launch} {y : MethodName} {ws ws' : List Cond} {rm : Room} {cc : ByteArray} {nL : Nat} {own : String} {As : List Value} {st : σ}
theorem s_i {rt : FieldType} {post : Int32 → σ → Prop} (hE : EvOk E) (hw : WA w) (hy : plainFor y = true) (how : y.cls = own) (hws : ws = Cond.code y cc nL (some rt) :: ws') (hlen : (lg_sl As).length ≤ nL)
    (body : ∀ Γ : cxT, Cx w D tys E l Γ cc own ws nL rm → (∀ (st2 : σ) (v : Int32) (cells slots pc : Nat) (lv : List (Nat × Value)), decode cc pc = .ok (.ireturn, 1) → post v st2 → narrow rt (.int v) = .int v → cells ≤ rm.cells → slots ≤ rm.slots → V w D Γ st2 cells slots pc lv [.int v]) → V w D Γ st 0 0 0 (lv_args 0 As) []) : Ci l y ws rm w E D tys rt As st post := by
  intro sz
  refine Met_ofF (cc := cc) (maxL := nL) (ret := some rt) hy hws ?_
  intro p e s m args below meth c s₁ B hml hv
  obtain ⟨rfl, hsz, hP, hK, hD0, hEv⟩ := hv
  have hts := atoms_spec (ws := ws) B.pre
  have hown : s.vm.findClass own = some m.cls := by rw [← how]; exact findClass_of_methodNamed B.named
  subst hsz
  have hD : va_D (va_A (w st) s.heap.size) (w st) := hD0.self
  have hl := lv_entry As (n := nL) hlen
  rw [lg_entry_eq]
  exact body (p, l, e, rm, s, m, As.toArray, below, meth, c, va_A (w st) s.heap.size, s.heap, MQ below (va_Qi (fun r st' => post r st' ∧ narrow rt (.int r) = .int r) (fun st' t => va_P D vwCl (w st') t.heap) (va_A (w st) s.heap.size)) As.toArray s rm.cells rm.slots (va_A (w st) s.heap.size), nL)
    ⟨B.exec, B.bytes, hts, hown, hK, ⟨hml, rfl⟩, fun q h => Or.inr h, fun st' => WA_D hw hD st', rfl, rfl, rfl, hE, hEv⟩
    (fun st2 v cells slots pc lv d hp hn hc hs H locs ls _ hP2 hS => W.widen hc hs (W.zret B.exec B.bytes B.returns hn (fun t ht hW => ⟨⟨v, st2, rfl, ⟨hp, hn⟩, by show va_P D vwCl _ t.heap; rw [ht]; exact hP2⟩, hS.F ht⟩) hS.2.2 d B.notSynchronized))
    s.heap [] _ hl hP va_S.rf
theorem s_v {post : σ → Prop} (hE : EvOk E) (hw : WA w) (hy : plainName y.cls = true) (how : y.cls = own) (hws : ws = Cond.code y cc nL none :: ws') (hlen : (lg_sl As).length ≤ nL)
    (body : ∀ Γ : cxT, Cx w D tys E l Γ cc own ws nL rm → (∀ (st2 : σ) (cells slots pc : Nat) (lv : List (Nat × Value)), decode cc pc = .ok (.return_, 1) → post st2 → cells ≤ rm.cells → slots ≤ rm.slots → V w D Γ st2 cells slots pc lv []) → V w D Γ st 0 0 0 (lv_args 0 As) []) : Cv l y ws rm w E D tys As st post := by
  intro sz
  refine Met.ofW (cc := cc) (maxL := nL) (ret := none) hy hws ?_
  intro p e s m args below meth c s₁ B hml hv
  obtain ⟨rfl, hsz, hP, hK, hD0, hEv⟩ := hv
  have hts := atoms_spec (ws := ws) B.pre
  have hown : s.vm.findClass own = some m.cls := by rw [← how]; exact findClass_of_methodNamed B.named
  subst hsz
  have hD : va_D (va_A (w st) s.heap.size) (w st) := hD0.self
  have hl := lv_entry As (n := nL) hlen
  rw [lg_entry_eq]
  exact body (p, l, e, rm, s, m, As.toArray, below, meth, c, va_A (w st) s.heap.size, s.heap, MQ below (va_Qv post (fun st' t => va_P D vwCl (w st') t.heap) (va_A (w st) s.heap.size)) As.toArray s rm.cells rm.slots (va_A (w st) s.heap.size), nL)
    ⟨B.exec, B.bytes, hts, hown, hK, ⟨hml, rfl⟩, fun q h => Or.inr h, fun st' => WA_D hw hD st', rfl, rfl, rfl, hE, hEv⟩
    (fun st2 cells slots pc lv d hp hc hs H locs ls _ hP2 hS => W.widen hc hs (W.vret B.exec B.bytes B.returns (fun t ht hW => ⟨⟨st2, rfl, hp, by show va_P D vwCl _ t.heap; rw [ht]; exact hP2⟩, hS.F ht⟩) hS.2.2 d B.notSynchronized))
    s.heap [] _ hl hP va_S.rf
/-- what a walk has of the end of a method that may throw -/
def Tx {σ : Type} (w : σ → va_W) (D : va_G) (Γ : cxT) (rm : Room) (px : Nat → σ → Prop) (Qc : Array Value → State → Outcome → State → Prop) (tbl : List ExceptionTableEntry) : Prop :=
  xQ Γ = vx_MQ (xb Γ) Qc (vx_X (fun u : Nat × σ => px u.1 u.2) (fun En u t => En = exN u.1 ∧ va_P D vwCl (w u.2) t.heap) (xA Γ)) (xg Γ) (xs Γ) rm.cells rm.slots (xA Γ) ∧ (xc Γ).exceptionTable.toList = tbl ∧ (xt Γ).locks = false
theorem s_xi {rt : FieldType} {post : Int32 → σ → Prop} {px : Nat → σ → Prop} (hE : EvOk E) (hw : WA w) (hy : plainName y.cls = true) (how : y.cls = own) (hws : ws = Cond.code y cc nL (some rt) :: ws') (hlen : (lg_sl As).length ≤ nL)
    (body : ∀ (Γ : cxT) (Qc : Array Value → State → Outcome → State → Prop), Cx w D tys E l Γ cc own ws nL rm → Tx w D Γ rm px Qc [] → (∀ (st2 : σ) (v : Int32) (cells slots pc : Nat) (lv : List (Nat × Value)), decode cc pc = .ok (.ireturn, 1) → post v st2 → narrow rt (.int v) = .int v → cells ≤ rm.cells → slots ≤ rm.slots → V w D Γ st2 cells slots pc lv [.int v]) → V w D Γ st 0 0 0 (lv_args 0 As) []) : Xi l y ws rm w E D tys rt As st post px := by
  intro sz
  refine vx_ofW (cc := cc) (maxL := nL) (ret := some rt) hy hws ?_
  intro p e s m args below meth c s₁ B hml hnx hv
  obtain ⟨rfl, hsz, hP, hK, hD0, hEv⟩ := hv
  have hts := atoms_spec (ws := ws) B.pre
  have hown : s.vm.findClass own = some m.cls := by rw [← how]; exact findClass_of_methodNamed B.named
  subst hsz
  have hD : va_D (va_A (w st) s.heap.size) (w st) := hD0.self
  have hl := lv_entry As (n := nL) hlen
  rw [lg_entry_eq]
  exact body (p, l, e, rm, s, m, As.toArray, below, meth, c, va_A (w st) s.heap.size, s.heap, vx_MQ below (va_Qi (fun r st' => post r st' ∧ narrow rt (.int r) = .int r) (fun st' t => va_P D vwCl (w st') t.heap) (va_A (w st) s.heap.size)) (vx_X (fun u : Nat × σ => px u.1 u.2) (fun En u t => En = exN u.1 ∧ va_P D vwCl (w u.2) t.heap) (va_A (w st) s.heap.size)) As.toArray s rm.cells rm.slots (va_A (w st) s.heap.size), nL) _
    ⟨B.exec, B.bytes, hts, hown, hK, ⟨hml, rfl⟩, fun q h => Or.inr h, fun st' => WA_D hw hD st', rfl, rfl, rfl, hE, hEv⟩ ⟨rfl, List.eq_nil_iff_forall_not_mem.mpr hnx, B.notSynchronized⟩
    (fun st2 v cells slots pc lv d hp hn hc hs H locs ls _ hP2 hS => vx_ret (W.widen hc hs (W.zret B.exec B.bytes B.returns hn (fun t ht hW => ⟨⟨v, st2, rfl, ⟨hp, hn⟩, by show va_P D vwCl _ t.heap; rw [ht]; exact hP2⟩, hS.F ht⟩) hS.2.2 d B.notSynchronized)))
    s.heap [] _ hl hP va_S.rf
theorem s_xiH {hh : List (Nat × Nat × Nat × Nat)} {rt : FieldType} {post : Int32 → σ → Prop} {px : Nat → σ → Prop} (hE : EvOk E) (hw : WA w) (hy : plainName y.cls = true) (how : y.cls = own) (hws : ws = Cond.codeWith y cc nL (some rt) hh :: ws') (hlen : (lg_sl As).length ≤ nL)
    (body : ∀ (Γ : cxT) (Qc : Array Value → State → Outcome → State → Prop), Cx w D tys E l Γ cc own ws nL rm → Tx w D Γ rm px Qc (tableOf hh) → (∀ (st2 : σ) (v : Int32) (cells slots pc : Nat) (lv : List (Nat × Value)), decode cc pc = .ok (.ireturn, 1) → post v st2 → narrow rt (.int v) = .int v → cells ≤ rm.cells → slots ≤ rm.slots → V w D Γ st2 cells slots pc lv [.int v]) → V w D Γ st 0 0 0 (lv_args 0 As) []) : Xi l y ws rm w E D tys rt As st post px := by
  intro sz
  refine vx_ofWH (hh := hh) (cc := cc) (maxL := nL) (ret := some rt) hy hws ?_
  intro p e s m args below meth c s₁ B hml hv
  obtain ⟨rfl, hsz, hP, hK, hD0, hEv⟩ := hv
  have hts := atoms_spec (ws := ws) B.pre
  have hown : s.vm.findClass own = some m.cls := by rw [← how]; exact findClass_of_methodNamed B.named
  subst hsz
  have hD : va_D (va_A (w st) s.heap.size) (w st) := hD0.self
  have hl := lv_entry As (n := nL) hlen
  rw [lg_entry_eq]
  exact body (p, l, e, rm, s, m, As.toArray, below, meth, c, va_A (w st) s.heap.size, s.heap, vx_MQ below (va_Qi (fun r st' => post r st' ∧ narrow rt (.int r) = .int r) (fun st' t => va_P D vwCl (w st') t.heap) (va_A (w st) s.heap.size)) (vx_X (fun u : Nat × σ => px u.1 u.2) (fun En u t => En = exN u.1 ∧ va_P D vwCl (w u.2) t.heap) (va_A (w st) s.heap.size)) As.toArray s rm.cells rm.slots (va_A (w st) s.heap.size), nL) _
    ⟨B.exec, B.bytes, hts, hown, hK, ⟨hml, rfl⟩, fun q h => Or.inr h, fun st' => WA_D hw hD st', rfl, rfl, rfl, hE, hEv⟩ ⟨rfl, vx_table (x := y) B (hts _ (by rw [hws]; exact List.mem_cons_self)), B.notSynchronized⟩
    (fun st2 v cells slots pc lv d hp hn hc hs H locs ls _ hP2 hS => vx_ret (W.widen hc hs (W.zret B.exec B.bytes B.returns hn (fun t ht hW => ⟨⟨v, st2, rfl, ⟨hp, hn⟩, by show va_P D vwCl _ t.heap; rw [ht]; exact hP2⟩, hS.F ht⟩) hS.2.2 d B.notSynchronized)))
    s.heap [] _ hl hP va_S.rf
theorem s_xv {post : σ → Prop} {px : Nat → σ → Prop} (hE : EvOk E) (hw : WA w) (hy : plainName y.cls = true) (how : y.cls = own) (hws : ws = Cond.code y cc nL none :: ws') (hlen : (lg_sl As).length ≤ nL)
    (body : ∀ (Γ : cxT) (Qc : Array Value → State → Outcome → State → Prop), Cx w D tys E l Γ cc own ws nL rm → Tx w D Γ rm px Qc [] → (∀ (st2 : σ) (cells slots pc : Nat) (lv : List (Nat × Value)), decode cc pc = .ok (.return_, 1) → post st2 → cells ≤ rm.cells → slots ≤ rm.slots → V w D Γ st2 cells slots pc lv []) → V w D Γ st 0 0 0 (lv_args 0 As) []) : Xv l y ws rm w E D tys As st post px := by
  intro sz
  refine vx_ofW (cc := cc) (maxL := nL) (ret := none) hy hws ?_
  intro p e s m args below meth c s₁ B hml hnx hv
  obtain ⟨rfl, hsz, hP, hK, hD0, hEv⟩ := hv
  have hts := atoms_spec (ws := ws) B.pre
  have hown : s.vm.findClass own = some m.cls := by rw [← how]; exact findClass_of_methodNamed B.named
  subst hsz
  have hD : va_D (va_A (w st) s.heap.size) (w st) := hD0.self
  have hl := lv_entry As (n := nL) hlen
  rw [lg_entry_eq]
  exact body (p, l, e, rm, s, m, As.toArray, below, meth, c, va_A (w st) s.heap.size, s.heap, vx_MQ below (va_Qv post (fun st' t => va_P D vwCl (w st') t.heap) (va_A (w st) s.heap.size)) (vx_X (fun u : Nat × σ => px u.1 u.2) (fun En u t => En = exN u.1 ∧ va_P D vwCl (w u.2) t.heap) (va_A (w st) s.heap.size)) As.toArray s rm.cells rm.slots (va_A (w st) s.heap.size), nL) _
    ⟨B.exec, B.bytes, hts, hown, hK, ⟨hml, rfl⟩, fun q h => Or.inr h, fun st' => WA_D hw hD st', rfl, rfl, rfl, hE, hEv⟩ ⟨rfl, List.eq_nil_iff_forall_not_mem.mpr hnx, B.notSynchronized⟩
    (fun st2 cells slots pc lv d hp hc hs H locs ls _ hP2 hS => vx_ret (W.widen hc hs (W.vret B.exec B.bytes B.returns (fun t ht hW => ⟨⟨st2, rfl, hp, by show va_P D vwCl _ t.heap; rw [ht]; exact hP2⟩, hS.F ht⟩) hS.2.2 d B.notSynchronized)))
    s.heap [] _ hl hP va_S.rf
theorem s_xr {C : String} {ad : Nat → Nat} {post : Nat → σ → Prop} {px : Nat → σ → Prop} (hE : EvOk E) (hw : WA w) (hy : plainName y.cls = true) (how : y.cls = own) (hws : ws = Cond.code y cc nL (some (.object C)) :: ws') (hlen : (lg_sl As).length ≤ nL)
    (body : ∀ (Γ : cxT) (Qc : Array Value → State → Outcome → State → Prop), Cx w D tys E l Γ cc own ws nL rm → Tx w D Γ rm px Qc [] → (∀ (st2 : σ) (n : Nat) (cells slots pc : Nat) (lv : List (Nat × Value)), decode cc pc = .ok (.areturn, 1) → post n st2 → cells ≤ rm.cells → slots ≤ rm.slots → V w D Γ st2 cells slots pc lv [.ref (ad n)]) → V w D Γ st 0 0 0 (lv_args 0 As) []) : Xr l y ws rm w E D tys ad As st post px := by
  intro sz
  refine vx_ofW (cc := cc) (maxL := nL) (ret := some (.object C)) hy hws ?_
  intro p e s m args below meth c s₁ B hml hnx hv
  obtain ⟨rfl, hsz, hP, hK, hD0, hEv⟩ := hv
  have hts := atoms_spec (ws := ws) B.pre
  have hown : s.vm.findClass own = some m.cls := by rw [← how]; exact findClass_of_methodNamed B.named
  subst hsz
  have hD : va_D (va_A (w st) s.heap.size) (w st) := hD0.self
  have hl := lv_entry As (n := nL) hlen
  rw [lg_entry_eq]
  exact body (p, l, e, rm, s, m, As.toArray, below, meth, c, va_A (w st) s.heap.size, s.heap, vx_MQ below (va_Qr (fun u : Nat × σ => post u.1 u.2) (fun u a t => a = ad u.1 ∧ va_P D vwCl (w u.2) t.heap) (va_A (w st) s.heap.size)) (vx_X (fun u : Nat × σ => px u.1 u.2) (fun En u t => En = exN u.1 ∧ va_P D vwCl (w u.2) t.heap) (va_A (w st) s.heap.size)) As.toArray s rm.cells rm.slots (va_A (w st) s.heap.size), nL) _
    ⟨B.exec, B.bytes, hts, hown, hK, ⟨hml, rfl⟩, fun q h => Or.inr h, fun st' => WA_D hw hD st', rfl, rfl, rfl, hE, hEv⟩ ⟨rfl, List.eq_nil_iff_forall_not_mem.mpr hnx, B.notSynchronized⟩
    (fun st2 n cells slots pc lv d hp hc hs H locs ls _ hP2 hS => vx_ret (W.widen hc hs (W.aret B.exec B.bytes B.returns (Or.inl ⟨C, rfl⟩) (Or.inr ⟨ad n, rfl⟩) (fun t ht hW => ⟨⟨(n, st2), ad n, rfl, hp, rfl, by show va_P D vwCl _ t.heap; rw [ht]; exact hP2⟩, hS.F ht⟩) hS.2.2 d B.notSynchronized)))
    s.heap [] _ hl hP va_S.rf
end VST
section VTH
variable {σ : Type} {w : σ → va_W} {D : va_G} {tys : List (ClassId × FieldType)} {E : evT} {l : Launch} {Γ : cxT} {cc : ByteArray} {own : String} {Ts : List Cond} {nL : Nat} {R : Room} {st : σ} {cells slots pc : Nat} {lv : List (Nat × Value)} {rest : List Value} {px : Nat → σ → Prop} {Qc : Array Value → State → Outcome → State → Prop}
/-- an exception that came from a call goes on to the caller -/
theorem r_out {tbl : List ExceptionTableEntry} (G : Cx w D tys E l Γ cc own Ts nL R) (X : Tx w D Γ R px Qc tbl) {k : Nat} (hout : ∀ x ∈ tbl, covers x pc = false) (hp : px k st) (hc : cells ≤ R.cells) (hs : slots ≤ R.slots) : VX w D Γ st cells slots pc lv rest (exN k) := by
  intro H locs ls q ce hl hP hS hq hv hcl
  rw [X.1]
  exact vx_out (fun x hx => hout x (by rw [← X.2.1]; exact hx)) X.2.2 hq hv hcl (fun t ht hal => ⟨(k, st), hp, ⟨rfl, by show va_P D vwCl _ t.heap; rw [ht]; exact hP⟩, va_S.F (by rw [G.H]; exact hS) ht⟩) hS.2.2 hc hs
end VTH
