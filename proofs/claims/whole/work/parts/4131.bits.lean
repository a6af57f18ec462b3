/-! places as bits -/
theorem bt7 : ∀ M, M < 128 → ∀ k, k < 7 → (((nI M >>> (nI k &&& 31)) &&& 1) = 0 ↔ M.testBit k = false) := by decide +kernel
theorem or7 : ∀ M, M < 128 → ∀ k, k < 7 → (nI M ||| (1 <<< (nI k &&& 31))) = nI (M ||| 2 ^ k) ∧ M ||| 2 ^ k < 128 := by decide +kernel
def oth (c i : Nat) : Nat := (2 ^ c - 1) &&& (127 ^^^ 2 ^ i)
theorem oth7 : ∀ c, c < 8 → ∀ i, i < 7 → ((((1 : Int32) <<< (nI c &&& (31 : Int32)) : Int32) - (1 : Int32) : Int32) &&& (((1 : Int32) <<< (nI i &&& (31 : Int32)) : Int32) ^^^ (-1 : Int32))) = nI (oth c i) ∧ oth c i < 128 ∧ ∀ j, j < 7 → (oth c i).testBit j = (decide (j < c) && decide (j ≠ i)) := by decide +kernel
