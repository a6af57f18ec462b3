theorem wsL_law_inr : ∀ w ∈ (wsL_law0_r1 ++ (wsL_law0_r2 ++ (wsL_law0_r3 ++ (wsL_law0_r4 ++ (wsL_law0_r5 ++ (wsL_law0_r6 ++ (wsL_law0_r7 ++ (wsL_law0_r8 ++ (wsL_law0_r9 ++ (wsL_law0_r10 ++ (wsL_law0_r11 ++ (wsL_law0_r12 ++ (wsL_law0_r13 ++ (wsL_law0_r14 ++ (wsL_law0_r15 ++ (wsL_law0_r16 ++ (wsL_law0_r17 ++ (wsL_law0_r18 ++ (wsL_law0_r19 ++ (wsL_law0_r20 ++ (wsL_law0_r21 ++ (wsL_law0_r22 ++ (wsL_law0_r23 ++ (wsL_law0_r24 ++ (wsL_law0_r25 ++ (wsL_law0_r26 ++ (wsL_law0_r27 ++ (wsL_law0_r28 ++ (wsL_law0_r29 ++ (wsL_law0_r30 ++ (wsL_law0_r31 ++ (wsL_law0_r32 ++ (wsL_law0_r33 ++ (wsL_law0_r34 ++ (wsL_law0_r35 ++ (wsL_law0_r36 ++ (wsL_law0_r37 ++ (wsL_law0_r38 ++ (wsL_law0_r39 ++ (wsL_law0_r40 ++ (wsL_law0_r41 ++ (wsL_law0_r42 ++ (wsL_law0_r43 ++ (wsL_law0_r44 ++ (wsL_law0_r45 ++ (wsL_law0_r46 ++ (wsL_law0_r47 ++ (wsL_law0_r48 ++ (wsL_law0_r49 ++ (wsL_law0_r50 ++ (wsL_law0_r51 ++ (wsL_law0_r52 ++ (wsL_law0_r53 ++ (wsL_law0_r54 ++ (wsL_law0_r55))))))))))))))))))))))))))))))))))))))))))))))))))))))), w ∈ lw_tbl := by
  intro w h
  rcases List.mem_append.mp h with h | h
  · exact wsL_law0_r1_in w h
  rcases List.mem_append.mp h with h | h
  · exact wsL_law0_r2_in w h
  rcases List.mem_append.mp h with h | h
  · exact wsL_law0_r3_in w h
  rcases List.mem_append.mp h with h | h
  · exact wsL_law0_r4_in w h
  rcases List.mem_append.mp h with h | h
  · exact wsL_law0_r5_in w h
  rcases List.mem_append.mp h with h | h
  · exact wsL_law0_r6_in w h
  rcases List.mem_append.mp h with h | h
  · exact wsL_law0_r7_in w h
  rcases List.mem_append.mp h with h | h
  · exact wsL_law0_r8_in w h
  rcases List.mem_append.mp h with h | h
  · exact wsL_law0_r9_in w h
  rcases List.mem_append.mp h with h | h
  · exact wsL_law0_r10_in w h
  rcases List.mem_append.mp h with h | h
  · exact wsL_law0_r11_in w h
  rcases List.mem_append.mp h with h | h
  · exact wsL_law0_r12_in w h
  rcases List.mem_append.mp h with h | h
  · exact wsL_law0_r13_in w h
  rcases List.mem_append.mp h with h | h
  · exact wsL_law0_r14_in w h
  rcases List.mem_append.mp h with h | h
  · exact wsL_law0_r15_in w h
  rcases List.mem_append.mp h with h | h
  · exact wsL_law0_r16_in w h
  rcases List.mem_append.mp h with h | h
  · exact wsL_law0_r17_in w h
  rcases List.mem_append.mp h with h | h
  · exact wsL_law0_r18_in w h
  rcases List.mem_append.mp h with h | h
  · exact wsL_law0_r19_in w h
  rcases List.mem_append.mp h with h | h
  · exact wsL_law0_r20_in w h
  rcases List.mem_append.mp h with h | h
  · exact wsL_law0_r21_in w h
  rcases List.mem_append.mp h with h | h
  · exact wsL_law0_r22_in w h
  rcases List.mem_append.mp h with h | h
  · exact wsL_law0_r23_in w h
  rcases List.mem_append.mp h with h | h
  · exact wsL_law0_r24_in w h
  rcases List.mem_append.mp h with h | h
  · exact wsL_law0_r25_in w h
  rcases List.mem_append.mp h with h | h
  · exact wsL_law0_r26_in w h
  rcases List.mem_append.mp h with h | h
  · exact wsL_law0_r27_in w h
  rcases List.mem_append.mp h with h | h
  · exact wsL_law0_r28_in w h
  rcases List.mem_append.mp h with h | h
  · exact wsL_law0_r29_in w h
  rcases List.mem_append.mp h with h | h
  · exact wsL_law0_r30_in w h
  rcases List.mem_append.mp h with h | h
  · exact wsL_law0_r31_in w h
  rcases List.mem_append.mp h with h | h
  · exact wsL_law0_r32_in w h
  rcases List.mem_append.mp h with h | h
  · exact wsL_law0_r33_in w h
  rcases List.mem_append.mp h with h | h
  · exact wsL_law0_r34_in w h
  rcases List.mem_append.mp h with h | h
  · exact wsL_law0_r35_in w h
  rcases List.mem_append.mp h with h | h
  · exact wsL_law0_r36_in w h
  rcases List.mem_append.mp h with h | h
  · exact wsL_law0_r37_in w h
  rcases List.mem_append.mp h with h | h
  · exact wsL_law0_r38_in w h
  rcases List.mem_append.mp h with h | h
  · exact wsL_law0_r39_in w h
  rcases List.mem_append.mp h with h | h
  · exact wsL_law0_r40_in w h
  rcases List.mem_append.mp h with h | h
  · exact wsL_law0_r41_in w h
  rcases List.mem_append.mp h with h | h
  · exact wsL_law0_r42_in w h
  rcases List.mem_append.mp h with h | h
  · exact wsL_law0_r43_in w h
  rcases List.mem_append.mp h with h | h
  · exact wsL_law0_r44_in w h
  rcases List.mem_append.mp h with h | h
  · exact wsL_law0_r45_in w h
  rcases List.mem_append.mp h with h | h
  · exact wsL_law0_r46_in w h
  rcases List.mem_append.mp h with h | h
  · exact wsL_law0_r47_in w h
  rcases List.mem_append.mp h with h | h
  · exact wsL_law0_r48_in w h
  rcases List.mem_append.mp h with h | h
  · exact wsL_law0_r49_in w h
  rcases List.mem_append.mp h with h | h
  · exact wsL_law0_r50_in w h
  rcases List.mem_append.mp h with h | h
  · exact wsL_law0_r51_in w h
  rcases List.mem_append.mp h with h | h
  · exact wsL_law0_r52_in w h
  rcases List.mem_append.mp h with h | h
  · exact wsL_law0_r53_in w h
  rcases List.mem_append.mp h with h | h
  · exact wsL_law0_r54_in w h
  exact wsL_law0_r55_in w h
theorem wsL_law_iwsX70 : ∀ w ∈ wsX70, w ∈ lw_tbl := by decide +kernel
theorem wsL_law_iwsX80 : ∀ w ∈ wsX80, w ∈ lw_tbl := by decide +kernel
theorem wsL_law_iwsX20 : ∀ w ∈ wsX20, w ∈ lw_tbl := by decide +kernel
theorem wsL_law_iwsX50 : ∀ w ∈ wsX50, w ∈ lw_tbl := by decide +kernel
theorem wsL_law_iwsX00 : ∀ w ∈ wsX00, w ∈ lw_tbl := by decide +kernel
theorem wsL_law_iwsX40 : ∀ w ∈ wsX40, w ∈ lw_tbl := by decide +kernel
theorem wsL_law_iwsX30 : ∀ w ∈ wsX30, w ∈ lw_tbl := by decide +kernel
theorem wsL_law_iwsX10 : ∀ w ∈ wsX10, w ∈ lw_tbl := by decide +kernel
theorem wsL_law_iwsX60 : ∀ w ∈ wsX60, w ∈ lw_tbl := by decide +kernel
set_option maxRecDepth 20000 in
theorem wsL_law_in0 : ∀ w ∈ wsL_law0, w ∈ lw_tbl := by
  intro w h
  unfold wsL_law0 at h
  rcases List.mem_append.mp h with h | h
  rcases List.mem_append.mp h with h | h
  rcases List.mem_append.mp h with h | h
  rcases List.mem_append.mp h with h | h
  rcases List.mem_append.mp h with h | h
  rcases List.mem_append.mp h with h | h
  rcases List.mem_append.mp h with h | h
  rcases List.mem_append.mp h with h | h
  rcases List.mem_append.mp h with h | h
  rcases List.mem_append.mp h with h | h
  · exact wsL_law_inr w h
  · exact wsL_law_iwsX70 w h
  · exact wsL_law_iwsX80 w h
  · exact wsL_law_iwsX20 w h
  · exact wsL_law_iwsX50 w h
  · exact wsL_law_iwsX00 w h
  · exact wsL_law_iwsX40 w h
  · exact wsL_law_iwsX30 w h
  · exact wsL_law_iwsX10 w h
  · exact wsL_law_iwsX60 w h
  · exact absurd h List.not_mem_nil
theorem wsL_law_x0 : ∀ w ∈ (vx_atS RX7 267 "java/lang/IndexOutOfBoundsException" ["java/lang/RuntimeException", "java/lang/Exception"]).filter goodWord, w ∈ lw_tbl := by decide +kernel
theorem wsL_law_x1 : ∀ w ∈ (vx_atS RX7 272 "java/lang/IllegalArgumentException" ["java/lang/RuntimeException", "java/lang/Exception"]).filter goodWord, w ∈ lw_tbl := by decide +kernel
theorem wsL_law_x2 : ∀ w ∈ (nse_at RX7 104).filter goodWord, w ∈ lw_tbl := by decide +kernel
theorem wsL_law_x3 : ∀ w ∈ (vx_atS RX2 30 "java/lang/IllegalArgumentException" ["java/lang/RuntimeException", "java/lang/Exception"]).filter goodWord, w ∈ lw_tbl := by decide +kernel
theorem wsL_law_x4 : ∀ w ∈ (vx_atS RX7 156 "java/lang/IllegalStateException" ["java/lang/RuntimeException", "java/lang/Exception"]).filter goodWord, w ∈ lw_tbl := by decide +kernel
theorem wsL_law_x5 : ∀ w ∈ (vx_atS RX5 23 "java/lang/UnsupportedOperationException" ["java/lang/RuntimeException", "java/lang/Exception"]).filter goodWord, w ∈ lw_tbl := by decide +kernel
theorem wsL_law_x6 : ∀ w ∈ (nse_at RX6 36).filter goodWord, w ∈ lw_tbl := by decide +kernel
theorem wsL_law_x7 : ∀ w ∈ (vx_atS RX6 43 "java/lang/UnsupportedOperationException" ["java/lang/RuntimeException", "java/lang/Exception"]).filter goodWord, w ∈ lw_tbl := by decide +kernel
theorem wsL_law_x8 : ∀ w ∈ (vx_atS RX6 48 "java/lang/IllegalStateException" ["java/lang/RuntimeException", "java/lang/Exception"]).filter goodWord, w ∈ lw_tbl := by decide +kernel
theorem wsL_law_in : ∀ w ∈ wsL_law, w ∈ lw_tbl := fun w h => (List.mem_append.mp h).elim (fun h => (List.mem_append.mp h).elim (fun h => (List.mem_append.mp h).elim (fun h => (List.mem_append.mp h).elim (fun h => (List.mem_append.mp h).elim (fun h => (List.mem_append.mp h).elim (fun h => (List.mem_append.mp h).elim (fun h => (List.mem_append.mp h).elim (fun h => (List.mem_append.mp h).elim (fun h => wsL_law_in0 w h) (fun h => wsL_law_x0 w h)) (fun h => wsL_law_x1 w h)) (fun h => wsL_law_x2 w h)) (fun h => wsL_law_x3 w h)) (fun h => wsL_law_x4 w h)) (fun h => wsL_law_x5 w h)) (fun h => wsL_law_x6 w h)) (fun h => wsL_law_x7 w h)) (fun h => wsL_law_x8 w h)
theorem inlX0 : ∀ w ∈ wsX00, w ∈ wsL_law := fun _ h => List.mem_append_left _ (List.mem_append_left _ (List.mem_append_left _ (List.mem_append_left _ (List.mem_append_left _ (List.mem_append_left _ (List.mem_append_left _ (List.mem_append_left _ (List.mem_append_left _ (List.mem_append_left _ (List.mem_append_left _ (List.mem_append_left _ (List.mem_append_left _ (List.mem_append_left _ (List.mem_append_right _ h))))))))))))))
theorem inX0 : ∀ w ∈ wsX00, w ∈ lw_tbl := fun w h => wsL_law_in w (inlX0 w h)
theorem inlX1 : ∀ w ∈ wsX10, w ∈ wsL_law := fun _ h => List.mem_append_left _ (List.mem_append_left _ (List.mem_append_left _ (List.mem_append_left _ (List.mem_append_left _ (List.mem_append_left _ (List.mem_append_left _ (List.mem_append_left _ (List.mem_append_left _ (List.mem_append_left _ (List.mem_append_left _ (List.mem_append_right _ h)))))))))))
theorem inX1 : ∀ w ∈ wsX10, w ∈ lw_tbl := fun w h => wsL_law_in w (inlX1 w h)
theorem inlX2 : ∀ w ∈ wsX20, w ∈ wsL_law := fun _ h => List.mem_append_left _ (List.mem_append_left _ (List.mem_append_left _ (List.mem_append_left _ (List.mem_append_left _ (List.mem_append_left _ (List.mem_append_left _ (List.mem_append_left _ (List.mem_append_left _ (List.mem_append_left _ (List.mem_append_left _ (List.mem_append_left _ (List.mem_append_left _ (List.mem_append_left _ (List.mem_append_left _ (List.mem_append_left _ (List.mem_append_right _ h))))))))))))))))
theorem inX2 : ∀ w ∈ wsX20, w ∈ lw_tbl := fun w h => wsL_law_in w (inlX2 w h)
theorem inlX3 : ∀ w ∈ wsX30, w ∈ wsL_law := fun _ h => List.mem_append_left _ (List.mem_append_left _ (List.mem_append_left _ (List.mem_append_left _ (List.mem_append_left _ (List.mem_append_left _ (List.mem_append_left _ (List.mem_append_left _ (List.mem_append_left _ (List.mem_append_left _ (List.mem_append_left _ (List.mem_append_left _ (List.mem_append_right _ h))))))))))))
theorem inX3 : ∀ w ∈ wsX30, w ∈ lw_tbl := fun w h => wsL_law_in w (inlX3 w h)
theorem inlX4 : ∀ w ∈ wsX40, w ∈ wsL_law := fun _ h => List.mem_append_left _ (List.mem_append_left _ (List.mem_append_left _ (List.mem_append_left _ (List.mem_append_left _ (List.mem_append_left _ (List.mem_append_left _ (List.mem_append_left _ (List.mem_append_left _ (List.mem_append_left _ (List.mem_append_left _ (List.mem_append_left _ (List.mem_append_left _ (List.mem_append_right _ h)))))))))))))
theorem inX4 : ∀ w ∈ wsX40, w ∈ lw_tbl := fun w h => wsL_law_in w (inlX4 w h)
theorem inlX5 : ∀ w ∈ wsX50, w ∈ wsL_law := fun _ h => List.mem_append_left _ (List.mem_append_left _ (List.mem_append_left _ (List.mem_append_left _ (List.mem_append_left _ (List.mem_append_left _ (List.mem_append_left _ (List.mem_append_left _ (List.mem_append_left _ (List.mem_append_left _ (List.mem_append_left _ (List.mem_append_left _ (List.mem_append_left _ (List.mem_append_left _ (List.mem_append_left _ (List.mem_append_right _ h)))))))))))))))
theorem inX5 : ∀ w ∈ wsX50, w ∈ lw_tbl := fun w h => wsL_law_in w (inlX5 w h)
theorem inlX6 : ∀ w ∈ wsX60, w ∈ wsL_law := fun _ h => List.mem_append_left _ (List.mem_append_left _ (List.mem_append_left _ (List.mem_append_left _ (List.mem_append_left _ (List.mem_append_left _ (List.mem_append_left _ (List.mem_append_left _ (List.mem_append_left _ (List.mem_append_left _ (List.mem_append_right _ h))))))))))
theorem inX6 : ∀ w ∈ wsX60, w ∈ lw_tbl := fun w h => wsL_law_in w (inlX6 w h)
theorem inlX7 : ∀ w ∈ wsX70, w ∈ wsL_law := fun _ h => List.mem_append_left _ (List.mem_append_left _ (List.mem_append_left _ (List.mem_append_left _ (List.mem_append_left _ (List.mem_append_left _ (List.mem_append_left _ (List.mem_append_left _ (List.mem_append_left _ (List.mem_append_left _ (List.mem_append_left _ (List.mem_append_left _ (List.mem_append_left _ (List.mem_append_left _ (List.mem_append_left _ (List.mem_append_left _ (List.mem_append_left _ (List.mem_append_left _ (List.mem_append_right _ h))))))))))))))))))
theorem inX7 : ∀ w ∈ wsX70, w ∈ lw_tbl := fun w h => wsL_law_in w (inlX7 w h)
theorem inlX8 : ∀ w ∈ wsX80, w ∈ wsL_law := fun _ h => List.mem_append_left _ (List.mem_append_left _ (List.mem_append_left _ (List.mem_append_left _ (List.mem_append_left _ (List.mem_append_left _ (List.mem_append_left _ (List.mem_append_left _ (List.mem_append_left _ (List.mem_append_left _ (List.mem_append_left _ (List.mem_append_left _ (List.mem_append_left _ (List.mem_append_left _ (List.mem_append_left _ (List.mem_append_left _ (List.mem_append_left _ (List.mem_append_right _ h)))))))))))))))))
theorem inX8 : ∀ w ∈ wsX80, w ∈ lw_tbl := fun w h => wsL_law_in w (inlX8 w h)
theorem inJx145de : ∀ w ∈ wsJx145de0, w ∈ lw_tbl := by decide +kernel
theorem inJx9f9b0 : ∀ w ∈ wsJx9f9b00, w ∈ lw_tbl := by decide +kernel
theorem inJxb160c : ∀ w ∈ wsJxb160c0, w ∈ lw_tbl := by decide +kernel
theorem inJ6 : ∀ w ∈ wsJ60, w ∈ lw_tbl := by decide +kernel
theorem inJ13 : ∀ w ∈ wsJ130, w ∈ lw_tbl := by decide +kernel
theorem inJ9 : ∀ w ∈ wsJ90, w ∈ lw_tbl := by decide +kernel
theorem inJ0 : ∀ w ∈ wsJ00, w ∈ lw_tbl := by decide +kernel
theorem inJ1 : ∀ w ∈ wsJ10, w ∈ lw_tbl := by decide +kernel
theorem inJ2 : ∀ w ∈ wsJ20, w ∈ lw_tbl := by decide +kernel
theorem inJxfd54e : ∀ w ∈ wsJxfd54e0, w ∈ lw_tbl := by decide +kernel
theorem inJx3cf43 : ∀ w ∈ wsJx3cf430, w ∈ lw_tbl := by decide +kernel
theorem inJ3 : ∀ w ∈ wsJ30, w ∈ lw_tbl := by decide +kernel
