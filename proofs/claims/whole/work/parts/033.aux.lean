/-! ===== small rows that the walks use ===== -/
/-- an index is in a row of n places -/
theorem vin_in {i : Int32} {n : Nat} (h : vin i n = true) : vp_in i n := by
  unfold vin at h
  unfold vp_in
  exact of_decide_eq_true h
theorem vin_lt {i : Int32} {n : Nat} (h : vin i n = true) : i.toNatClampNeg < n := Nat.not_le.mp fun q => vin_in h (Or.inr q)
theorem vin_nI {k n : Nat} (h : k < n) (hn : n < 2 ^ 31) : vin (nI k) n = true := by
  have q := vp_in_nI h hn
  unfold vp_in at q
  unfold vin
  exact decide_eq_true q
theorem iincm (x : Int32) : x + Int32.ofInt (-1) = x + (-1) := by rw [show Int32.ofInt (-1) = (-1 : Int32) from by decide]
theorem ob {α β : Type} {x : Option α} {k : α → Option β} {y : β} (h : x.bind k = some y) : ∃ a, x = some a ∧ k a = some y := by
  cases x with
  | none => cases h
  | some a => exact ⟨a, rfl, h⟩
theorem og {p : Prop} [Decidable p] {α : Type} {x : Option α} {y : α} (h : (if p then x else none) = some y) : p ∧ x = some y := by
  by_cases c : p
  · rw [if_pos c] at h; exact ⟨c, h⟩
  · rw [if_neg c] at h; cases h
theorem tsw (n : Nat) {x : Int32} (h : ∀ a, a < n → ¬ x = nI a) (hn : n < 2 ^ 31 := by decide) : x.toInt < 0 ∨ ((n : Int) - 1) < x.toInt := by
  by_cases h0 : x < 0
  · exact Or.inl (Int32.lt_iff_toInt_lt.mp h0)
  · obtain ⟨j, hj, rfl⟩ := nI_of h0
    right
    rw [nI_toInt hj]
    by_cases c : j < n
    · exact absurd rfl (h j c)
    · omega
-- what 'throw' needs of the statics of Throwable, the texts and the words that the tables alone decide
def thS : List (String × Nat × String) := [(RX5, 21, "a view cannot be changed"), (RX7, 265, "there is no such set"), (RX7, 273, "there is no such member"), (RX7, 270, "a parameter is out of range"), (RX7, 102, "the set has no such member"), (RX7, 275, "the set has no number"), (RX7, 154, "the family is full"), (RX7, 166, "the family has no such place"), (RX7, 202, "the text would be too long"), (RX7, 226, "the text has an error"), (RX2, 28, "there is no other set"), (RX6, 34, "the walk has no further member"), (RX6, 41, "a view cannot be changed"), (RX6, 46, "there is no member to remove")]
def thB : List Cond := (vx_atS RX5 23 "java/lang/UnsupportedOperationException" ["java/lang/RuntimeException", "java/lang/Exception"] ++ vx_atS RX7 267 "java/lang/IndexOutOfBoundsException" ["java/lang/RuntimeException", "java/lang/Exception"] ++ vx_atS RX7 272 "java/lang/IllegalArgumentException" ["java/lang/RuntimeException", "java/lang/Exception"] ++ nse_at RX7 104 ++ vx_atS RX7 156 "java/lang/IllegalStateException" ["java/lang/RuntimeException", "java/lang/Exception"] ++ vx_atS RX2 30 "java/lang/IllegalArgumentException" ["java/lang/RuntimeException", "java/lang/Exception"] ++ nse_at RX6 36 ++ vx_atS RX6 43 "java/lang/UnsupportedOperationException" ["java/lang/RuntimeException", "java/lang/Exception"] ++ vx_atS RX6 48 "java/lang/IllegalStateException" ["java/lang/RuntimeException", "java/lang/Exception"]).filter (fun w => !goodWord w)
theorem thB_tab : ∀ w ∈ thB, w.onTables = true := by decide +kernel
def TOk (E : evT) : Prop := ∀ (A : Nat → Prop) (U : State) (H : Heap), E A U H → vx_Zq Bundle.tN "UNASSIGNED_STACK" Bundle.steD A U H ∧ vx_Zq Bundle.tN "SUPPRESSED_SENTINEL" Bundle.listD A U H ∧ (∀ q ∈ thS, ∃ sa : Nat, vk_R q.1 q.2.1 q.2.2 sa U) ∧ ∀ w ∈ thB, va_Nw w U
section VTR
variable {σ : Type} {w : σ → va_W} {D : va_G} {tys : List (ClassId × FieldType)} {E : evT} {l : Launch} {Γ : cxT} {cc : ByteArray} {own : String} {Ts : List Cond} {nL : Nat} {R : Room} {st : σ} {cells slots pc : Nat} {lv : List (Nat × Value)} {rest : List Value} {px : Nat → σ → Prop} {Qc : Array Value → State → Outcome → State → Prop}
theorem r_throw (G : Cx w D tys E l Γ cc own Ts nL R) (X : Tx w D Γ R px Qc []) (hT : TOk E) (hfl : l.stackTraces = false) {k ik isx ic : Nat} {text : String} (hcls : Bundle.fit (exN k) = true) (hk : Cond.classLink own ik (exN k) ∈ Ts) (hini : Cond.initialized (exN k) ∈ Ts) (ha : ∀ w ∈ (vx_atS own ic (exN k) ["java/lang/RuntimeException", "java/lang/Exception"]).filter goodWord, w ∈ Ts)
    (ho : ∀ w ∈ vx_atS own ic (exN k) ["java/lang/RuntimeException", "java/lang/Exception"], vx_ot w = true) (hB : ∀ w ∈ (vx_atS own ic (exN k) ["java/lang/RuntimeException", "java/lang/Exception"]).filter (fun w => !goodWord w), w ∈ thB) (hS9 : (own, isx, text) ∈ thS)
    (d0 : decode cc pc = .ok (.new ik, 3)) (d3 : decode cc (pc + 3) = .ok (.dup, 1)) (d4 : decode cc (pc + 4) = .ok (.ldc isx, 2)) (d6 : decode cc (pc + 6) = .ok (.invokespecial ic, 3)) (d9 : decode cc (pc + 9) = .ok (.athrow, 1))
    (hp : px k st) (hc : cells + 1 ≤ R.cells) (hs : slots + 6 ≤ R.slots) (hRf : 5 < R.frames) (hRl : (rest.map fun v => v.category).sum + 82 ≤ R.locals) : V w D Γ st cells slots pc lv rest := by
  intro H locs ls hl hP hS
  obtain ⟨eU, eN, eS, eB⟩ := hT _ _ _ G.ev
  obtain ⟨sa, hsa⟩ := eS _ hS9
  rw [X.1]
  exact vx_throwS G.hx G.hb (by rw [G.hL]; exact hfl) (names := ["java/lang/RuntimeException", "java/lang/Exception"]) (text := text) (ic := ic) G.ow hcls (by decide +kernel) (G.ts _ hk) (G.ts _ hini) hsa
    (vx_hat (B := thB) (fun w hw => G.ts _ (ha w hw)) hB (fun w hw => va_Nw.use (thB_tab w hw) (eB w hw)))
    (fun w hw => by
      rcases List.mem_cons.mp hw with rfl | hw
      · rfl
      · rcases List.mem_cons.mp hw with rfl | hw
        · rfl
        · exact ho w hw)
    (by rw [G.H]; exact eU) (by rw [G.H]; exact eN) (by rw [G.H]; exact hS) (by rw [G.ml, ← G.n]; exact hl.1) d0 d3 d4 d6 d9 (fun x hx => by rw [X.2.1] at hx; cases hx) (by rw [G.hR]; exact hRf) (by rw [G.hR]; exact hRl) (by rw [G.hR]; exact hc) (by rw [G.hR]; exact hs) X.2.2
    (fun t hal hz hk9 => ⟨(k, st), hp, ⟨rfl, hP.kept (fun k9 q hq => hk9 q.1 ((hP k9 q hq).lt))⟩, by unfold va_F; rw [G.H]; exact ⟨Nat.le_trans hS.1 hz, fun q h1 h2 => by rw [hk9 q (Nat.lt_of_lt_of_le h1 hS.1)]; exact hS.2.1 q h1 h2⟩⟩)
    hS.2.2 hc hs
theorem r_throwW (G : Cx w D tys E l Γ cc own Ts nL R) (X : Tx w D Γ R px Qc []) (hT : TOk E) (hfl : l.stackTraces = false) {k ik isx ic : Nat} {text : String} (hcls : Bundle.fit (exN k) = true) (hk : Cond.classLink own ik (exN k) ∈ Ts) (hini : Cond.initialized (exN k) ∈ Ts) (ha : ∀ w ∈ (vx_atS own ic (exN k) ["java/lang/RuntimeException", "java/lang/Exception"]).filter goodWord, w ∈ Ts)
    (ho : ∀ w ∈ vx_atS own ic (exN k) ["java/lang/RuntimeException", "java/lang/Exception"], vx_ot w = true) (hB : ∀ w ∈ (vx_atS own ic (exN k) ["java/lang/RuntimeException", "java/lang/Exception"]).filter (fun w => !goodWord w), w ∈ thB) (hS9 : (own, isx, text) ∈ thS)
    (d0 : decode cc pc = .ok (.new ik, 3)) (d3 : decode cc (pc + 3) = .ok (.dup, 1)) (d4 : decode cc (pc + 4) = .ok (.ldc_w isx, 3)) (d6 : decode cc (pc + 7) = .ok (.invokespecial ic, 3)) (d9 : decode cc (pc + 10) = .ok (.athrow, 1))
    (hp : px k st) (hc : cells + 1 ≤ R.cells) (hs : slots + 6 ≤ R.slots) (hRf : 5 < R.frames) (hRl : (rest.map fun v => v.category).sum + 82 ≤ R.locals) : V w D Γ st cells slots pc lv rest := by
  intro H locs ls hl hP hS
  obtain ⟨eU, eN, eS, eB⟩ := hT _ _ _ G.ev
  obtain ⟨sa, hsa⟩ := eS _ hS9
  rw [X.1]
  exact vx_throwSW G.hx G.hb (by rw [G.hL]; exact hfl) (names := ["java/lang/RuntimeException", "java/lang/Exception"]) (text := text) (ic := ic) G.ow hcls (by decide +kernel) (G.ts _ hk) (G.ts _ hini) hsa
    (vx_hat (B := thB) (fun w hw => G.ts _ (ha w hw)) hB (fun w hw => va_Nw.use (thB_tab w hw) (eB w hw)))
    (fun w hw => by
      rcases List.mem_cons.mp hw with rfl | hw
      · rfl
      · rcases List.mem_cons.mp hw with rfl | hw
        · rfl
        · exact ho w hw)
    (by rw [G.H]; exact eU) (by rw [G.H]; exact eN) (by rw [G.H]; exact hS) (by rw [G.ml, ← G.n]; exact hl.1) d0 d3 d4 d6 d9 (fun x hx => by rw [X.2.1] at hx; cases hx) (by rw [G.hR]; exact hRf) (by rw [G.hR]; exact hRl) (by rw [G.hR]; exact hc) (by rw [G.hR]; exact hs) X.2.2
    (fun t hal hz hk9 => ⟨(k, st), hp, ⟨rfl, hP.kept (fun k9 q hq => hk9 q.1 ((hP k9 q hq).lt))⟩, by unfold va_F; rw [G.H]; exact ⟨Nat.le_trans hS.1 hz, fun q h1 h2 => by rw [hk9 q (Nat.lt_of_lt_of_le h1 hS.1)]; exact hS.2.1 q h1 h2⟩⟩)
    hS.2.2 hc hs
end VTR
