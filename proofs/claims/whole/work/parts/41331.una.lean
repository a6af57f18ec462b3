/-- the union of those that are told -/
def un (f : Nat → BS) (P : Nat → Bool) : Nat → BS
  | 0 => fun _ => false
  | k + 1 => if P k then jn 0 (un f P k) (f k) else un f P k
theorem un_cong {f g : Nat → BS} {P Q : Nat → Bool} : ∀ {c : Nat}, (∀ j, j < c → P j = Q j) → (∀ j, j < c → f j = g j) → un f P c = un g Q c
  | 0, _, _ => rfl
  | c + 1, h1, h2 => by rw [un, un, h1 c (by omega), h2 c (by omega), un_cong (fun j hj => h1 j (by omega)) (fun j hj => h2 j (by omega))]
theorem un_wf {f : Nat → BS} (hf : ∀ j, wfB (f j)) (P : Nat → Bool) : ∀ c, wfB (un f P c)
  | 0 => wf_0
  | c + 1 => by
    rw [un]
    split
    · exact jn_wf (un_wf hf P c) (hf c)
    · exact un_wf hf P c
