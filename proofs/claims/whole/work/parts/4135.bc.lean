theorem bc7_1 : ∀ M, M < 128 → (nI M - (((nI M).toUInt32 >>> ((1 : Int32).toUInt32 &&& Int32.toUInt32 31)).toInt32 &&& 1431655765) = nI (M - (M / 2 &&& 85))) ∧ M - (M / 2 &&& 85) < 128 := by decide +kernel
theorem bc7_2 : ∀ z, z < 128 → ((nI z &&& 858993459) + (((nI z).toUInt32 >>> ((2 : Int32).toUInt32 &&& Int32.toUInt32 31)).toInt32 &&& 858993459) = nI ((z &&& 51) + (z / 4 &&& 51))) ∧ (z &&& 51) + (z / 4 &&& 51) < 128 := by decide +kernel
theorem bc7_3 : ∀ w, w < 128 → ((nI w + ((nI w).toUInt32 >>> ((4 : Int32).toUInt32 &&& Int32.toUInt32 31)).toInt32) &&& 252645135) = nI ((w + w / 16) &&& 15) ∧ (w + w / 16) &&& 15 < 16 := by decide +kernel
theorem bc7_4 : ∀ v, v < 16 → nI v + ((nI v).toUInt32 >>> ((8 : Int32).toUInt32 &&& Int32.toUInt32 31)).toInt32 = nI v ∧ nI v + ((nI v).toUInt32 >>> ((16 : Int32).toUInt32 &&& Int32.toUInt32 31)).toInt32 = nI v ∧ nI v &&& 63 = nI v := by decide +kernel
theorem bc7_n : ∀ M, M < 128 → ((((M - (M / 2 &&& 85)) &&& 51) + ((M - (M / 2 &&& 85)) / 4 &&& 51)) + (((M - (M / 2 &&& 85)) &&& 51) + ((M - (M / 2 &&& 85)) / 4 &&& 51)) / 16) &&& 15 = fb_ct (fun j => M.testBit j) 7 := by decide +kernel
theorem bc7 (s : cS) (M : Nat) (h : M < 128) : fJ6_bitCount_0f7a4 (nI M) s = nI (fb_ct (fun j => M.testBit j) 7) := by
  unfold fJ6_bitCount_0f7a4
  have q1 := bc7_1 M h
  have q2 := bc7_2 _ q1.2
  have q3 := bc7_3 _ q2.2
  have q4 := bc7_4 _ q3.2
  rw [q1.1, q2.1, q3.1, q4.1, q4.2.1, q4.2.2, bc7_n M h]
