/-! an array of arrays: its words, seen from any state alike (the printed va_mna asks for it) -/
def va_AOA (ty : FieldType) (U : State) : Prop := (Cond.arrayOver (.array ty)).before #[] U = true
theorem va_AOA.of {ty : FieldType} {A : Array Value} {U : State} (h : (Cond.arrayOver (.array ty)).before A U = true) : va_AOA ty U := h
theorem va_AOA.use {ty : FieldType} {A : Array Value} {U : State} (h : va_AOA ty U) : (Cond.arrayOver (.array ty)).before A U = true := h
/-! the words of 'throw new NoSuchElementException("text")': its constructor calls the one above it by entry 13 of its pool -/
def nse_rx : ByteArray := ⟨#[0x2a, 0x2b, 0xb7, 0x00, 0x0d, 0xb1]⟩
/-- (the same words as Bundle.ownAtomsX has, but the four of the heap) -/
def nse_at (own : String) (ic : Nat) : List Cond := (Bundle.ownAtomsX own ic "java/util/NoSuchElementException" 13 nse_rx ["java/lang/RuntimeException", "java/lang/Exception"]).filter (fun w => decide (w ≠ .isRef (.static Bundle.tN "UNASSIGNED_STACK" Bundle.steD)) && decide (w ≠ .isRef (.static Bundle.tN "SUPPRESSED_SENTINEL" Bundle.listD)) && decide (w ≠ .laysStatic Bundle.tN "UNASSIGNED_STACK" Bundle.steD) && decide (w ≠ .laysStatic Bundle.tN "SUPPRESSED_SENTINEL" Bundle.listD))
