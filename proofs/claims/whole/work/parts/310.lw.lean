/-! ===== the law's world: the council, the reference, the answer's cell ===== -/
abbrev oC (κ : Nat → ClassId) (qo : Nat) (o : Int64) : Nat × va_E := (qo, .inl (κ 6, 1, .inr (.inl (fun k => if k = 0 then o else 0))))
def lW (ad bd : Nat → Nat) (κ : Nat → ClassId) (qo : Nat) (σ : lS) : va_W := (cW ad κ σ.1 ++ mW bd κ σ.2.1) ++ [oC κ qo σ.2.2]
section LWO
variable (ad bd : Nat → Nat) (κ : Nat → ClassId) (qo : Nat) (σ : lS)
theorem mW_len (s : mS) : (mW bd κ s).length = 73 := by simp [mW]
theorem lW_WA : WA (lW ad bd κ qo) := fun st st' => by
  have h1 : (cW ad κ st.1).map Prod.fst = (cW ad κ st'.1).map Prod.fst := cW_WA ad κ st.1 st'.1
  have h2 : (mW bd κ st.2.1).map Prod.fst = (mW bd κ st'.2.1).map Prod.fst := mW_WA bd κ st.2.1 st'.2.1
  simp only [lW, List.map_append, h1, h2, List.map_cons, List.map_nil]
theorem lw_SC : (lW ad bd κ qo σ)[55]? = some (ad 55, .inr (7, [.ref (ad 56), .ref (ad 57), .ref (ad 66), .ref (ad 67), .ref (ad 24), .ref (ad 70), .ref (ad 72), .ref (ad 78)])) := by
  unfold lW
  rw [List.getElem?_append_left (by simp [cW_len, mW_len]), List.getElem?_append_left (by rw [cW_len]; omega)]
  exact cw_SC ad κ σ.1
theorem lw_MO : (lW ad bd κ qo σ)[146]? = some (bd 67, .inr (8, [.int (mI σ.2.1 0), .ref (bd 68), .ref (bd 8), .ref (bd 69), .ref (bd 70), .int (mI σ.2.1 1), .int (mI σ.2.1 2), .ref (bd 23), .ref (bd 72), .int (mI σ.2.1 3), .ref (bd 71), .int (mI σ.2.1 4), .int (mI σ.2.1 5), .int (mI σ.2.1 6), .int (mI σ.2.1 7), .int (mI σ.2.1 8), .ref (bd 64), .ref (bd 65), .ref (bd 66)])) := by
  unfold lW
  rw [List.getElem?_append_left (by simp [cW_len, mW_len]), List.getElem?_append_right (by rw [cW_len]; omega), cW_len]
  exact mw_MO bd κ σ.2.1
theorem lw_OUT : (lW ad bd κ qo σ)[152]? = some (oC κ qo σ.2.2) := by
  unfold lW
  rw [List.getElem?_append_right (by simp [cW_len, mW_len]), List.length_append, cW_len, mW_len]
  rfl
theorem lu_OUT (x : Int64) : (lW ad bd κ qo σ).set 152 (qo, .inl (κ 6, 1, .inr (.inl (vp_updL (fun k => if k = 0 then σ.2.2 else 0) (0 : Int32).toNatClampNeg x)))) = lW ad bd κ qo (σ.1, σ.2.1, x) := by
  unfold lW
  rw [List.set_append_right _ _ (by simp [cW_len, mW_len]), List.length_append, cW_len, mW_len]
  have h : vp_updL (fun k => if k = 0 then σ.2.2 else 0) (0 : Int32).toNatClampNeg x = fun k => if k = 0 then x else 0 := by
    funext k
    rw [show (0 : Int32).toNatClampNeg = 0 from by decide]
    unfold vp_updL
    by_cases c : k = 0
    · rw [if_pos c, if_pos c]
    · rw [if_neg c, if_neg c]; exact if_neg c
  rw [h]
  rfl
theorem lW_c (a : cS) (μ : mS) (o : Int64) : lW ad bd κ qo (a, μ, o) = ([] ++ cW ad κ a) ++ (mW bd κ μ ++ [oC κ qo o]) := by
  unfold lW
  rw [List.nil_append, List.append_assoc]
theorem lW_m (a : cS) (μ : mS) (o : Int64) : lW ad bd κ qo (a, μ, o) = (cW ad κ a ++ mW bd κ μ) ++ [oC κ qo o] := rfl
end LWO
section LWR
variable {D : va_G} {E : evT} {l : Launch} {Γ : cxT} {cc : ByteArray} {own : String} {Ts : List Cond} {nL : Nat} {R : Room} {cells slots pc : Nat} {lv : List (Nat × Value)} {rest : List Value} {ad bd : Nat → Nat} {κ : Nat → ClassId} {qo : Nat} {σ : lS}
theorem r_outld (G : Cx (lW ad bd κ qo) D (tyA κ) E l Γ cc own Ts nL R) (d : decode cc pc = .ok (.laload, 1)) (k : V (lW ad bd κ qo) D Γ σ cells slots (pc + 1) lv (.long σ.2.2 :: rest)) : V (lW ad bd κ qo) D Γ σ cells slots pc lv (.int 0 :: .ref qo :: rest) := by
  refine r_lald G 152 6 (lw_OUT ad bd κ qo σ) rfl (vin_in (by decide)) d ?_
  rw [show (if (0 : Int32).toNatClampNeg = 0 then σ.2.2 else 0) = σ.2.2 from if_pos (by decide)]
  exact k
theorem r_outst (G : Cx (lW ad bd κ qo) D (tyA κ) E l Γ cc own Ts nL R) {x : Int64} (d : decode cc pc = .ok (.lastore, 1)) (k : V (lW ad bd κ qo) D Γ (σ.1, σ.2.1, x) cells slots (pc + 1) lv rest) : V (lW ad bd κ qo) D Γ σ cells slots pc lv (.long x :: .int 0 :: .ref qo :: rest) :=
  r_last G 152 6 (lw_OUT ad bd κ qo σ) rfl (vin_in (by decide)) (lu_OUT ad bd κ qo σ x) d k
theorem r_sld {σT : Type} {w : σT → va_W} {tys : List (ClassId × FieldType)} {st : σT} (G : Cx w D tys E l Γ cc own Ts nL R) {b L : Nat} {ys : Nat → Int32} {i : Int32} (hX : va_X b L ys (xs Γ) (xH Γ)) (hbl : b < (xH Γ).size) (hbA : ¬ xA Γ b) (hin : vp_in i L) (d : decode cc pc = .ok (.iaload, 1)) (k : V w D Γ st cells slots (pc + 1) lv (.int (ys i.toNatClampNeg) :: rest)) : V w D Γ st cells slots pc lv (.int i :: .ref b :: rest) :=
  fun H locs ls hl hP hS => va_sld G.hx G.hb hX hbl hbA hS hin d (k H locs ls hl hP hS)
theorem r_slen {σT : Type} {w : σT → va_W} {tys : List (ClassId × FieldType)} {st : σT} (G : Cx w D tys E l Γ cc own Ts nL R) {b L : Nat} {ys : Nat → Int32} (hX : va_X b L ys (xs Γ) (xH Γ)) (hbl : b < (xH Γ).size) (hbA : ¬ xA Γ b) (d : decode cc pc = .ok (.arraylength, 1)) (k : V w D Γ st cells slots (pc + 1) lv (.int (Int32.ofNat L) :: rest)) : V w D Γ st cells slots pc lv (.ref b :: rest) :=
  fun H locs ls hl hP hS => va_slen G.hx G.hb hX hbl hbA hS d (k H locs ls hl hP hS)
end LWR
abbrev rmLw : Room := { frames := 16, cells := 8, slots := 40, locals := 400 }
