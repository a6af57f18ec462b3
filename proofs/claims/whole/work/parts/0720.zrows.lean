/-! ===== making objects: cells, rows ===== -/
abbrev cMS (q : Nat) : Nat × va_E := (q, .inr (2, [.long 0, .long 0]))
abbrev cAR (cA : ClassId) (q n : Nat) (l : List Nat) : Nat × va_E := (q, .inl (cA, n, .inr (.inr (.inr (.inr (fun k => l[k]?))))))
abbrev cIA (cA : ClassId) (q n : Nat) : Nat × va_E := (q, .inl (cA, n, .inl (fun _ => 0)))
theorem nil_up : (fun _ : Nat => (none : Option Nat)) = fun k => ([] : List Nat)[k]? := funext fun k => List.getElem?_nil.symm
theorem up_push (l : List Nat) (v : Nat) : va_up (fun k => l[k]?) l.length (some v) = fun k => (l ++ [v])[k]? := by
  funext k
  unfold va_up
  by_cases h : k = l.length
  · subst h
    rw [if_pos rfl, List.getElem?_append_right (Nat.le_refl _), Nat.sub_self]; rfl
  · rw [if_neg h]
    show l[k]? = (l ++ [v])[k]?
    by_cases h2 : k < l.length
    · rw [List.getElem?_append_left h2]
    · have h3 : l[k]? = none := List.getElem?_eq_none (by omega)
      have h4 : (l ++ [v])[k]? = none := List.getElem?_eq_none (by simp; omega)
      rw [h3, h4]
def AOk (E : evT) : Prop := ∀ (A : Nat → Prop) (U : State) (H : Heap), E A U H → va_AO RX2 U ∧ va_AO RX5 U ∧ va_AOA .boolean U
section VZN
variable {σ : Type} {w : σ → va_W} {D : va_G} {tys : List (ClassId × FieldType)} {E : evT} {l : Launch} {Γ : cxT} {cc : ByteArray} {own : String} {Ts : List Cond} {nL : Nat} {R : Room} {st : σ} {cells slots pc : Nat} {lv : List (Nat × Value)} {rest : List Value}
theorem z_eq {w1 w2 : va_W} (G : Cx (kw w1) D tys E l Γ cc own Ts nL R) (h : w1 = w2) (k : Cx (kw w2) D tys E l Γ cc own Ts nL R → V (kw w2) D Γ () cells slots pc lv rest) : V (kw w1) D Γ () cells slots pc lv rest := by
  subst h; exact k G
theorem z_newq (G : Cx w D tys E l Γ cc own Ts nL R) {C : String} {index N' : Nat} {n : Int32} (t0 : Nat) {cA : ClassId} (ht : tys[t0]? = some (cA, .object C)) (hcl : Cond.classLink own index C ∈ Ts) (hover : va_AO C (xs Γ)) (hn : ¬ n < 0) (hN : n.toNatClampNeg = N') (hb : N' * 4 ≤ 536870912) (hc : cells + 1 ≤ R.cells) (hs : slots + N' ≤ R.slots) (d : decode cc pc = .ok (.anewarray index, 3))
    (k : ∀ q : Nat, Cx (kw (w st ++ [cAR cA q N' []])) D tys E l Γ cc own Ts nL R → V (kw (w st ++ [cAR cA q N' []])) D Γ () (cells + 1) (slots + N') (pc + 3) lv (.ref q :: rest)) : V w D Γ st cells slots pc lv (.int n :: rest) := by
  intro H locs ls hl hP hS
  refine va_newq G.hx G.hb G.ow (G.ts _ hcl) hover G.K hP (G.hD st) hS G.A hn hN hb (by rw [G.hR]; exact hc) (by rw [G.hR]; exact hs) d (fun q cA' H1 hK1 hP1 hD1 hS1 => ?_)
  have e : cA' = cA := by
    have h1 := (hK1.2 tys.length (cA', .object C) (by rw [List.getElem?_append_right (Nat.le_refl _), Nat.sub_self]; rfl)).2
    have h2 := (G.K.2 t0 _ ht).2
    obtain ⟨_, _, _, _, _, h1⟩ := h1
    obtain ⟨_, _, _, _, _, h2⟩ := h2
    exact Option.some.inj (h1.symm.trans h2)
  subst e
  rw [nil_up] at hP1 hD1
  exact k q (G.world (fun _ => hD1)) H1 locs ls hl hP1 hS1
theorem z_newa (G : Cx w D tys E l Γ cc own Ts nL R) {atype : ArrayType} {ty : FieldType} {N' : Nat} {n : Int32} (hty : newarray.typeOf atype = ty) (t0 : Nat) {cA : ClassId} (ht : tys[t0]? = some (cA, ty)) (hRA : ∀ (U : State) (c : ClassId), va_RA U c ty → U.vm.findClass ("[" ++ ty.toString) = some c) (hd : defaultValue ty = .int 0) (harr : Cond.arrayClass ty ∈ Ts) (hn : ¬ n < 0) (hN : n.toNatClampNeg = N') (hb : N' * componentBytes ty ≤ 536870912) (hc : cells + 1 ≤ R.cells) (hs : slots + N' ≤ R.slots) (d : decode cc pc = .ok (.newarray atype, 2))
    (k : ∀ q : Nat, Cx (kw (w st ++ [cIA cA q N'])) D tys E l Γ cc own Ts nL R → V (kw (w st ++ [cIA cA q N'])) D Γ () (cells + 1) (slots + N') (pc + 2) lv (.ref q :: rest)) : V w D Γ st cells slots pc lv (.int n :: rest) := by
  subst hty
  intro H locs ls hl hP hS
  refine va_newa (atype := atype) (a0 := (N', .inl (fun _ => 0))) G.hx G.hb (G.ts _ harr) rfl G.K hP (G.hD st) hS G.A (fun cA => by rw [hd]; rfl) hn hN hb (by rw [G.hR]; exact hc) (by rw [G.hR]; exact hs) d (fun q cA' H1 hK1 hP1 hD1 hS1 => ?_)
  have e : cA' = cA := by
    have h1 := hRA _ _ (hK1.2 tys.length (cA', newarray.typeOf atype) (by rw [List.getElem?_append_right (Nat.le_refl _), Nat.sub_self]; rfl)).2
    have h2 := hRA _ _ (G.K.2 t0 _ ht).2
    exact Option.some.inj (h1.symm.trans h2)
  subst e
  exact k q (G.world (fun _ => hD1)) H1 locs ls hl hP1 hS1
theorem z_astq (G : Cx w D tys E l Γ cc own Ts nL R) (q0 t0 qk ci : Nat) {cA : ClassId} {r : vw_C} {a n v : Nat} {vs : List Value} {f f2 : Nat → Option Nat} {ws2 : va_W} (ha : (w st)[q0]? = some (a, .inl (cA, n, .inr (.inr (.inr (.inr f)))))) (ht : tys[t0]? = some (cA, .object r.1)) (hv : (w st)[qk]? = some (v, .inr (ci, vs))) (hc : vwCl[ci]? = some r) {i : Int32} (hin : vp_in i n) (hf : va_up f i.toNatClampNeg (some v) = f2) (hset : (w st).set q0 (a, .inl (cA, n, .inr (.inr (.inr (.inr f2))))) = ws2) (d : decode cc pc = .ok (.aastore, 1))
    (k : Cx (kw ws2) D tys E l Γ cc own Ts nL R → V (kw ws2) D Γ () cells slots (pc + 1) lv rest) : V w D Γ st cells slots pc lv (.ref v :: .int i :: .ref a :: rest) := by
  subst hf; subst hset
  intro H locs ls hl hP hS
  exact va_astq G.hx G.hb G.K hP (G.hD st) hS q0 t0 qk ci ha ht hv hc hin d (fun H1 locs1 hP1 hD1 hS1 => k (G.world (fun _ => hD1)) H1 locs1 ls hl hP1 hS1)
end VZN
