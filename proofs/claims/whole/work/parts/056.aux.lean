theorem cw_VIEWv (ad : Nat → Nat) (κ : Nat → ClassId) (s : cS) {v : Nat} (h : 58 ≤ v ∧ v < 66) : (cW ad κ s)[v]? = some (ad v, .inr (5, [.ref (ad (v - 58))])) := by
  rw [cW_at ad κ s (by omega)]
  simp only [cE, show ¬ v < 55 by omega, show ¬ v = 55 by omega, show ¬ v = 56 by omega, show ¬ v = 57 by omega, show v < 66 by omega, if_true, if_false]
