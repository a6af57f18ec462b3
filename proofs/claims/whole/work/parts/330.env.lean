/-! ===== what the law's walk stands on beside the worlds ===== -/
def wk : Cond → Bool
  | .castable _ _ => true
  | .declares _ => true
  | _ => false
theorem thB_k : ∀ w ∈ thB, wk w = true := by decide +kernel
theorem wk_warm {w : Cond} (hk : wk w = true) {s U : State} (hW : s.WarmedH U.vm) (h : va_Nw w s) : va_Nw w U := by
  cases w <;> first | exact va_Nw.warmC hW h | exact va_Nw.warmD hW h | (cases hk)
theorem AOA_moved {ty : FieldType} {u U : State} (hvm : u.vm.Alike U.vm) (h : va_AOA ty u) : va_AOA ty U := by
  have e : (Cond.arrayOver (.array ty)).before #[] U = (Cond.arrayOver (.array ty)).before #[] (u.setVm U.vm) := by
    first | rfl | simp only [Cond.before, Cond.holds, Cond.value, State.vm_setVm]
  unfold va_AOA
  rw [e, Cond.arrayOver_setVmC hvm]
  exact h
theorem CAt.warm {s U : State} (hW : s.WarmedH U.vm) (h : CAt s) : CAt U :=
  ⟨⟨va_Nw.warmC hW h.1.1, va_Nw.warmC hW h.1.2.1, va_Nw.warmC hW h.1.2.2.1, va_Nw.warmC hW h.1.2.2.2.1, va_Nw.warmC hW h.1.2.2.2.2⟩,
   ⟨va_Nc.moved hW.alike h.2.1.1, va_Nc.moved hW.alike h.2.1.2.1, va_Nc.moved hW.alike h.2.1.2.2.1, va_Nc.moved hW.alike h.2.1.2.2.2⟩,
   ⟨word_at hW (Or.inl rfl) h.2.2.1, word_at hW (Or.inl rfl) h.2.2.2.1, word_at hW (Or.inl rfl) h.2.2.2.2.1, word_at hW (Or.inl rfl) h.2.2.2.2.2⟩⟩
theorem CAt.same {s U : State} (hv : s.vm = U.vm) (h : CAt s) : CAt U := by
  have al : s.vm.Alike U.vm := by rw [hv]; exact Vm.Alike.refl _
  exact ⟨⟨va_Nw.same rfl hv h.1.1, va_Nw.same rfl hv h.1.2.1, va_Nw.same rfl hv h.1.2.2.1, va_Nw.same rfl hv h.1.2.2.2.1, va_Nw.same rfl hv h.1.2.2.2.2⟩,
   ⟨va_Nc.moved al h.2.1.1, va_Nc.moved al h.2.1.2.1, va_Nc.moved al h.2.1.2.2.1, va_Nc.moved al h.2.1.2.2.2⟩,
   ⟨va_Nw.same rfl hv h.2.2.1, va_Nw.same rfl hv h.2.2.2.1, va_Nw.same rfl hv h.2.2.2.2.1, va_Nw.same rfl hv h.2.2.2.2.2⟩⟩
def eTh (A : Nat → Prop) (U : State) (H : Heap) : Prop := vx_Zq Bundle.tN "UNASSIGNED_STACK" Bundle.steD A U H ∧ vx_Zq Bundle.tN "SUPPRESSED_SENTINEL" Bundle.listD A U H ∧ (∀ q ∈ thS, ∃ sa : Nat, vk_R q.1 q.2.1 q.2.2 sa U) ∧ ∀ w ∈ thB, va_Nw w U
def eAO (U : State) : Prop := va_AO RX2 U ∧ va_AO RX5 U ∧ va_AOA .boolean U
def eAll (kK kV : Nat → Nat) : evT := fun A U H => eTh A U H ∧ CAt U ∧ SAt kK kV A U H ∧ eAO U
theorem eAll_ok (kK kV : Nat → Nat) : EvOk (eAll kK kV) := by
  refine ⟨fun A u U H hW h => ?_, fun A u U H hv h => ?_, fun A U H H1 h hq => ?_, fun A B U H h hAB => ?_⟩
  · obtain ⟨⟨a1, a2, a3, a4⟩, b, ⟨c1, c2, c3, ⟨c4, c5, c6⟩, c7, c8, c9⟩, d1, d2, d3⟩ := h
    have al := hW.alike
    exact ⟨⟨vx_Zq.moved al a1, vx_Zq.moved al a2, fun q hq => (a3 q hq).imp (fun sa k => vk_R.warm hW k), fun w hw => wk_warm (thB_k w hw) hW (a4 w hw)⟩, CAt.warm hW b,
      ⟨vk_S.moved al c1, va_Z.moved al c2, va_Zq.moved al c3, ⟨vk_R.warm hW c4, vk_R.warm hW c5, vk_R.warm hW c6⟩, vk_R.warm hW c7, vk_R.warm hW c8, vk_R.warm hW c9⟩, va_AO.moved al d1, va_AO.moved al d2, AOA_moved al d3⟩
  · obtain ⟨⟨a1, a2, a3, a4⟩, b, ⟨c1, c2, c3, ⟨c4, c5, c6⟩, c7, c8, c9⟩, d1, d2, d3⟩ := h
    have al : u.vm.Alike U.vm := by rw [hv]; exact Vm.Alike.refl _
    exact ⟨⟨vx_Zq.moved al a1, vx_Zq.moved al a2, fun q hq => (a3 q hq).imp (fun sa k => vk_R.same hv k), fun w hw => va_Nw.same (thB_tab w hw) hv.symm (a4 w hw)⟩, CAt.same hv.symm b,
      ⟨vk_S.moved al c1, va_Z.moved al c2, va_Zq.moved al c3, ⟨vk_R.same hv c4, vk_R.same hv c5, vk_R.same hv c6⟩, vk_R.same hv c7, vk_R.same hv c8, vk_R.same hv c9⟩, va_AO.moved al d1, va_AO.moved al d2, AOA_moved al d3⟩
  · obtain ⟨⟨a1, a2, a3, a4⟩, b, ⟨c1, c2, c3, c4⟩, d⟩ := h
    exact ⟨⟨vx_Zq.kept a1 hq, vx_Zq.kept a2 hq, a3, a4⟩, b, ⟨vk_S.kept c1 hq, va_Z.kept c2 hq, va_Zq.kept c3 hq, c4⟩, d⟩
  · obtain ⟨⟨a1, a2, a3, a4⟩, b, ⟨c1, c2, c3, c4⟩, d⟩ := h
    exact ⟨⟨vx_Zq.narrow a1 hAB, vx_Zq.narrow a2 hAB, a3, a4⟩, b, ⟨vk_S.narrow c1 hAB, va_Z.narrow c2 hAB, va_Zq.narrow c3 hAB, c4⟩, d⟩
theorem eAll_T (kK kV : Nat → Nat) : TOk (eAll kK kV) := fun _ _ _ h => h.1
theorem eAll_C (kK kV : Nat → Nat) : COk (eAll kK kV) := fun _ _ _ h => h.2.1
theorem eAll_S (kK kV : Nat → Nat) : SOk (eAll kK kV) kK kV := fun _ _ _ h => h.2.2.1
theorem eAll_A (kK kV : Nat → Nat) : AOk (eAll kK kV) := fun _ _ _ h => h.2.2.2
