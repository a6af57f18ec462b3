theorem dJ6_bitCount_0f7a4_0 : decode cJ6_bitCount_0f7a4 0 = .ok (.iload_n 0, 1) := by decide +kernel
theorem dJ6_bitCount_0f7a4_1 : decode cJ6_bitCount_0f7a4 1 = .ok (.iload_n 0, 1) := by decide +kernel
theorem dJ6_bitCount_0f7a4_2 : decode cJ6_bitCount_0f7a4 2 = .ok (.iconst 1, 1) := by decide +kernel
theorem dJ6_bitCount_0f7a4_3 : decode cJ6_bitCount_0f7a4 3 = .ok (.iushr, 1) := by decide +kernel
theorem dJ6_bitCount_0f7a4_4 : decode cJ6_bitCount_0f7a4 4 = .ok (.ldc_w 265, 3) := by decide +kernel
theorem dJ6_bitCount_0f7a4_7 : decode cJ6_bitCount_0f7a4 7 = .ok (.iand, 1) := by decide +kernel
theorem dJ6_bitCount_0f7a4_8 : decode cJ6_bitCount_0f7a4 8 = .ok (.isub, 1) := by decide +kernel
theorem dJ6_bitCount_0f7a4_9 : decode cJ6_bitCount_0f7a4 9 = .ok (.istore_n 0, 1) := by decide +kernel
theorem dJ6_bitCount_0f7a4_10 : decode cJ6_bitCount_0f7a4 10 = .ok (.iload_n 0, 1) := by decide +kernel
theorem dJ6_bitCount_0f7a4_11 : decode cJ6_bitCount_0f7a4 11 = .ok (.ldc_w 266, 3) := by decide +kernel
theorem dJ6_bitCount_0f7a4_14 : decode cJ6_bitCount_0f7a4 14 = .ok (.iand, 1) := by decide +kernel
theorem dJ6_bitCount_0f7a4_15 : decode cJ6_bitCount_0f7a4 15 = .ok (.iload_n 0, 1) := by decide +kernel
theorem dJ6_bitCount_0f7a4_16 : decode cJ6_bitCount_0f7a4 16 = .ok (.iconst 2, 1) := by decide +kernel
theorem dJ6_bitCount_0f7a4_17 : decode cJ6_bitCount_0f7a4 17 = .ok (.iushr, 1) := by decide +kernel
theorem dJ6_bitCount_0f7a4_18 : decode cJ6_bitCount_0f7a4 18 = .ok (.ldc_w 266, 3) := by decide +kernel
theorem dJ6_bitCount_0f7a4_21 : decode cJ6_bitCount_0f7a4 21 = .ok (.iand, 1) := by decide +kernel
theorem dJ6_bitCount_0f7a4_22 : decode cJ6_bitCount_0f7a4 22 = .ok (.iadd, 1) := by decide +kernel
theorem dJ6_bitCount_0f7a4_23 : decode cJ6_bitCount_0f7a4 23 = .ok (.istore_n 0, 1) := by decide +kernel
theorem dJ6_bitCount_0f7a4_24 : decode cJ6_bitCount_0f7a4 24 = .ok (.iload_n 0, 1) := by decide +kernel
theorem dJ6_bitCount_0f7a4_25 : decode cJ6_bitCount_0f7a4 25 = .ok (.iload_n 0, 1) := by decide +kernel
theorem dJ6_bitCount_0f7a4_26 : decode cJ6_bitCount_0f7a4 26 = .ok (.iconst 4, 1) := by decide +kernel
theorem dJ6_bitCount_0f7a4_27 : decode cJ6_bitCount_0f7a4 27 = .ok (.iushr, 1) := by decide +kernel
theorem dJ6_bitCount_0f7a4_28 : decode cJ6_bitCount_0f7a4 28 = .ok (.iadd, 1) := by decide +kernel
theorem dJ6_bitCount_0f7a4_29 : decode cJ6_bitCount_0f7a4 29 = .ok (.ldc_w 267, 3) := by decide +kernel
theorem dJ6_bitCount_0f7a4_32 : decode cJ6_bitCount_0f7a4 32 = .ok (.iand, 1) := by decide +kernel
theorem dJ6_bitCount_0f7a4_33 : decode cJ6_bitCount_0f7a4 33 = .ok (.istore_n 0, 1) := by decide +kernel
theorem dJ6_bitCount_0f7a4_34 : decode cJ6_bitCount_0f7a4 34 = .ok (.iload_n 0, 1) := by decide +kernel
theorem dJ6_bitCount_0f7a4_35 : decode cJ6_bitCount_0f7a4 35 = .ok (.iload_n 0, 1) := by decide +kernel
theorem dJ6_bitCount_0f7a4_36 : decode cJ6_bitCount_0f7a4 36 = .ok (.bipush 8, 2) := by decide +kernel
theorem dJ6_bitCount_0f7a4_38 : decode cJ6_bitCount_0f7a4 38 = .ok (.iushr, 1) := by decide +kernel
theorem dJ6_bitCount_0f7a4_39 : decode cJ6_bitCount_0f7a4 39 = .ok (.iadd, 1) := by decide +kernel
theorem dJ6_bitCount_0f7a4_40 : decode cJ6_bitCount_0f7a4 40 = .ok (.istore_n 0, 1) := by decide +kernel
theorem dJ6_bitCount_0f7a4_41 : decode cJ6_bitCount_0f7a4 41 = .ok (.iload_n 0, 1) := by decide +kernel
theorem dJ6_bitCount_0f7a4_42 : decode cJ6_bitCount_0f7a4 42 = .ok (.iload_n 0, 1) := by decide +kernel
theorem dJ6_bitCount_0f7a4_43 : decode cJ6_bitCount_0f7a4 43 = .ok (.bipush 16, 2) := by decide +kernel
theorem dJ6_bitCount_0f7a4_45 : decode cJ6_bitCount_0f7a4 45 = .ok (.iushr, 1) := by decide +kernel
theorem dJ6_bitCount_0f7a4_46 : decode cJ6_bitCount_0f7a4 46 = .ok (.iadd, 1) := by decide +kernel
theorem dJ6_bitCount_0f7a4_47 : decode cJ6_bitCount_0f7a4 47 = .ok (.istore_n 0, 1) := by decide +kernel
theorem dJ6_bitCount_0f7a4_48 : decode cJ6_bitCount_0f7a4 48 = .ok (.iload_n 0, 1) := by decide +kernel
theorem dJ6_bitCount_0f7a4_49 : decode cJ6_bitCount_0f7a4 49 = .ok (.bipush 63, 2) := by decide +kernel
theorem dJ6_bitCount_0f7a4_51 : decode cJ6_bitCount_0f7a4 51 = .ok (.iand, 1) := by decide +kernel
theorem dJ6_bitCount_0f7a4_52 : decode cJ6_bitCount_0f7a4 52 = .ok (.ireturn, 1) := by decide +kernel
theorem dJ13_bitCount_95d88_0 : decode cJ13_bitCount_95d88 0 = .ok (.lload_n 0, 1) := by decide +kernel
theorem dJ13_bitCount_95d88_1 : decode cJ13_bitCount_95d88 1 = .ok (.lload_n 0, 1) := by decide +kernel
theorem dJ13_bitCount_95d88_2 : decode cJ13_bitCount_95d88 2 = .ok (.iconst 1, 1) := by decide +kernel
theorem dJ13_bitCount_95d88_3 : decode cJ13_bitCount_95d88 3 = .ok (.lushr, 1) := by decide +kernel
theorem dJ13_bitCount_95d88_4 : decode cJ13_bitCount_95d88 4 = .ok (.ldc2_w 314, 3) := by decide +kernel
theorem dJ13_bitCount_95d88_7 : decode cJ13_bitCount_95d88 7 = .ok (.land, 1) := by decide +kernel
theorem dJ13_bitCount_95d88_8 : decode cJ13_bitCount_95d88 8 = .ok (.lsub, 1) := by decide +kernel
theorem dJ13_bitCount_95d88_9 : decode cJ13_bitCount_95d88 9 = .ok (.lstore_n 0, 1) := by decide +kernel
theorem dJ13_bitCount_95d88_10 : decode cJ13_bitCount_95d88 10 = .ok (.lload_n 0, 1) := by decide +kernel
theorem dJ13_bitCount_95d88_11 : decode cJ13_bitCount_95d88 11 = .ok (.ldc2_w 316, 3) := by decide +kernel
theorem dJ13_bitCount_95d88_14 : decode cJ13_bitCount_95d88 14 = .ok (.land, 1) := by decide +kernel
theorem dJ13_bitCount_95d88_15 : decode cJ13_bitCount_95d88 15 = .ok (.lload_n 0, 1) := by decide +kernel
theorem dJ13_bitCount_95d88_16 : decode cJ13_bitCount_95d88 16 = .ok (.iconst 2, 1) := by decide +kernel
theorem dJ13_bitCount_95d88_17 : decode cJ13_bitCount_95d88 17 = .ok (.lushr, 1) := by decide +kernel
theorem dJ13_bitCount_95d88_18 : decode cJ13_bitCount_95d88 18 = .ok (.ldc2_w 316, 3) := by decide +kernel
theorem dJ13_bitCount_95d88_21 : decode cJ13_bitCount_95d88 21 = .ok (.land, 1) := by decide +kernel
theorem dJ13_bitCount_95d88_22 : decode cJ13_bitCount_95d88 22 = .ok (.ladd, 1) := by decide +kernel
theorem dJ13_bitCount_95d88_23 : decode cJ13_bitCount_95d88 23 = .ok (.lstore_n 0, 1) := by decide +kernel
theorem dJ13_bitCount_95d88_24 : decode cJ13_bitCount_95d88 24 = .ok (.lload_n 0, 1) := by decide +kernel
theorem dJ13_bitCount_95d88_25 : decode cJ13_bitCount_95d88 25 = .ok (.lload_n 0, 1) := by decide +kernel
theorem dJ13_bitCount_95d88_26 : decode cJ13_bitCount_95d88 26 = .ok (.iconst 4, 1) := by decide +kernel
theorem dJ13_bitCount_95d88_27 : decode cJ13_bitCount_95d88 27 = .ok (.lushr, 1) := by decide +kernel
theorem dJ13_bitCount_95d88_28 : decode cJ13_bitCount_95d88 28 = .ok (.ladd, 1) := by decide +kernel
theorem dJ13_bitCount_95d88_29 : decode cJ13_bitCount_95d88 29 = .ok (.ldc2_w 318, 3) := by decide +kernel
theorem dJ13_bitCount_95d88_32 : decode cJ13_bitCount_95d88 32 = .ok (.land, 1) := by decide +kernel
theorem dJ13_bitCount_95d88_33 : decode cJ13_bitCount_95d88 33 = .ok (.lstore_n 0, 1) := by decide +kernel
theorem dJ13_bitCount_95d88_34 : decode cJ13_bitCount_95d88 34 = .ok (.lload_n 0, 1) := by decide +kernel
theorem dJ13_bitCount_95d88_35 : decode cJ13_bitCount_95d88 35 = .ok (.lload_n 0, 1) := by decide +kernel
theorem dJ13_bitCount_95d88_36 : decode cJ13_bitCount_95d88 36 = .ok (.bipush 8, 2) := by decide +kernel
theorem dJ13_bitCount_95d88_38 : decode cJ13_bitCount_95d88 38 = .ok (.lushr, 1) := by decide +kernel
theorem dJ13_bitCount_95d88_39 : decode cJ13_bitCount_95d88 39 = .ok (.ladd, 1) := by decide +kernel
theorem dJ13_bitCount_95d88_40 : decode cJ13_bitCount_95d88 40 = .ok (.lstore_n 0, 1) := by decide +kernel
theorem dJ13_bitCount_95d88_41 : decode cJ13_bitCount_95d88 41 = .ok (.lload_n 0, 1) := by decide +kernel
theorem dJ13_bitCount_95d88_42 : decode cJ13_bitCount_95d88 42 = .ok (.lload_n 0, 1) := by decide +kernel
theorem dJ13_bitCount_95d88_43 : decode cJ13_bitCount_95d88 43 = .ok (.bipush 16, 2) := by decide +kernel
theorem dJ13_bitCount_95d88_45 : decode cJ13_bitCount_95d88 45 = .ok (.lushr, 1) := by decide +kernel
theorem dJ13_bitCount_95d88_46 : decode cJ13_bitCount_95d88 46 = .ok (.ladd, 1) := by decide +kernel
theorem dJ13_bitCount_95d88_47 : decode cJ13_bitCount_95d88 47 = .ok (.lstore_n 0, 1) := by decide +kernel
theorem dJ13_bitCount_95d88_48 : decode cJ13_bitCount_95d88 48 = .ok (.lload_n 0, 1) := by decide +kernel
theorem dJ13_bitCount_95d88_49 : decode cJ13_bitCount_95d88 49 = .ok (.lload_n 0, 1) := by decide +kernel
theorem dJ13_bitCount_95d88_50 : decode cJ13_bitCount_95d88 50 = .ok (.bipush 32, 2) := by decide +kernel
theorem dJ13_bitCount_95d88_52 : decode cJ13_bitCount_95d88 52 = .ok (.lushr, 1) := by decide +kernel
theorem dJ13_bitCount_95d88_53 : decode cJ13_bitCount_95d88 53 = .ok (.ladd, 1) := by decide +kernel
theorem dJ13_bitCount_95d88_54 : decode cJ13_bitCount_95d88 54 = .ok (.lstore_n 0, 1) := by decide +kernel
theorem dJ13_bitCount_95d88_55 : decode cJ13_bitCount_95d88 55 = .ok (.lload_n 0, 1) := by decide +kernel
theorem dJ13_bitCount_95d88_56 : decode cJ13_bitCount_95d88 56 = .ok (.l2i, 1) := by decide +kernel
theorem dJ13_bitCount_95d88_57 : decode cJ13_bitCount_95d88 57 = .ok (.bipush 127, 2) := by decide +kernel
theorem dJ13_bitCount_95d88_59 : decode cJ13_bitCount_95d88 59 = .ok (.iand, 1) := by decide +kernel
theorem dJ13_bitCount_95d88_60 : decode cJ13_bitCount_95d88 60 = .ok (.ireturn, 1) := by decide +kernel
theorem dJ9_floorMod_7cf53_0 : decode cJ9_floorMod_7cf53 0 = .ok (.iload_n 0, 1) := by decide +kernel
theorem dJ9_floorMod_7cf53_1 : decode cJ9_floorMod_7cf53 1 = .ok (.iload_n 1, 1) := by decide +kernel
theorem dJ9_floorMod_7cf53_2 : decode cJ9_floorMod_7cf53 2 = .ok (.irem, 1) := by decide +kernel
theorem dJ9_floorMod_7cf53_3 : decode cJ9_floorMod_7cf53 3 = .ok (.istore_n 2, 1) := by decide +kernel
theorem dJ9_floorMod_7cf53_4 : decode cJ9_floorMod_7cf53 4 = .ok (.iload_n 0, 1) := by decide +kernel
theorem dJ9_floorMod_7cf53_5 : decode cJ9_floorMod_7cf53 5 = .ok (.iload_n 1, 1) := by decide +kernel
theorem dJ9_floorMod_7cf53_6 : decode cJ9_floorMod_7cf53 6 = .ok (.ixor, 1) := by decide +kernel
theorem dJ9_floorMod_7cf53_7 : decode cJ9_floorMod_7cf53 7 = .ok (.ifCond .ge 11, 3) := by decide +kernel
theorem dJ9_floorMod_7cf53_10 : decode cJ9_floorMod_7cf53 10 = .ok (.iload_n 2, 1) := by decide +kernel
theorem dJ9_floorMod_7cf53_11 : decode cJ9_floorMod_7cf53 11 = .ok (.ifCond .eq 7, 3) := by decide +kernel
theorem dJ9_floorMod_7cf53_14 : decode cJ9_floorMod_7cf53 14 = .ok (.iload_n 2, 1) := by decide +kernel
theorem dJ9_floorMod_7cf53_15 : decode cJ9_floorMod_7cf53 15 = .ok (.iload_n 1, 1) := by decide +kernel
theorem dJ9_floorMod_7cf53_16 : decode cJ9_floorMod_7cf53 16 = .ok (.iadd, 1) := by decide +kernel
theorem dJ9_floorMod_7cf53_17 : decode cJ9_floorMod_7cf53 17 = .ok (.ireturn, 1) := by decide +kernel
theorem dJ9_floorMod_7cf53_18 : decode cJ9_floorMod_7cf53 18 = .ok (.iload_n 2, 1) := by decide +kernel
theorem dJ9_floorMod_7cf53_19 : decode cJ9_floorMod_7cf53 19 = .ok (.ireturn, 1) := by decide +kernel
theorem dJ9_min_7cf53_0 : decode cJ9_min_7cf53 0 = .ok (.iload_n 0, 1) := by decide +kernel
theorem dJ9_min_7cf53_1 : decode cJ9_min_7cf53 1 = .ok (.iload_n 1, 1) := by decide +kernel
theorem dJ9_min_7cf53_2 : decode cJ9_min_7cf53 2 = .ok (.if_icmp .gt 7, 3) := by decide +kernel
theorem dJ9_min_7cf53_5 : decode cJ9_min_7cf53 5 = .ok (.iload_n 0, 1) := by decide +kernel
theorem dJ9_min_7cf53_6 : decode cJ9_min_7cf53 6 = .ok (.goto 4, 3) := by decide +kernel
theorem dJ9_min_7cf53_9 : decode cJ9_min_7cf53 9 = .ok (.iload_n 1, 1) := by decide +kernel
theorem dJ9_min_7cf53_10 : decode cJ9_min_7cf53 10 = .ok (.ireturn, 1) := by decide +kernel
set_option maxRecDepth 20000 in
theorem ggJ0_length_8abf5_J0_coder_7d493 : GoodIn wsJ0_length_8abf5 wsJ0_coder_7d493 := goodIn_r _ [6, 7, 8] (by decide +kernel) (by decide +kernel)
set_option maxRecDepth 20000 in
theorem gJ0_length_8abf5_J0_coder_7d493 : GoodIn wsJ0_length_8abf5 (wsV RJ0 335 RJ0 yJ0_coder_7d493 wsJ0_coder_7d493) := goodIn_app (goodIn_of _ (by decide +kernel)) ggJ0_length_8abf5_J0_coder_7d493
theorem dJ0_length_8abf5_0 : decode cJ0_length_8abf5 0 = .ok (.aload_n 0, 1) := by decide +kernel
theorem dJ0_length_8abf5_1 : decode cJ0_length_8abf5 1 = .ok (.getfield 9, 3) := by decide +kernel
theorem dJ0_length_8abf5_4 : decode cJ0_length_8abf5 4 = .ok (.arraylength, 1) := by decide +kernel
theorem dJ0_length_8abf5_5 : decode cJ0_length_8abf5 5 = .ok (.aload_n 0, 1) := by decide +kernel
theorem dJ0_length_8abf5_6 : decode cJ0_length_8abf5 6 = .ok (.invokevirtual 335, 3) := by decide +kernel
theorem dJ0_length_8abf5_9 : decode cJ0_length_8abf5 9 = .ok (.ishr, 1) := by decide +kernel
theorem dJ0_length_8abf5_10 : decode cJ0_length_8abf5 10 = .ok (.ireturn, 1) := by decide +kernel
set_option maxRecDepth 20000 in
theorem ggJ0_charAt_5068e_J0_isLatin1_aae02 : GoodIn wsJ0_charAt_5068e wsJ0_isLatin1_aae02 := goodIn_r _ [6, 7, 8] (by decide +kernel) (by decide +kernel)
set_option maxRecDepth 20000 in
theorem gJ0_charAt_5068e_J0_isLatin1_aae02 : GoodIn wsJ0_charAt_5068e (wsV RJ0 492 RJ0 yJ0_isLatin1_aae02 wsJ0_isLatin1_aae02) := goodIn_app (goodIn_of _ (by decide +kernel)) ggJ0_charAt_5068e_J0_isLatin1_aae02
set_option maxRecDepth 20000 in
theorem ggJ0_charAt_5068e_J1_charAt_3b067 : GoodIn wsJ0_charAt_5068e wsJ1_charAt_3b067 := goodIn_r _ [12, 13, 14, 5, 15, 16, 17, 18, 19, 20] (by decide +kernel) (by decide +kernel)
set_option maxRecDepth 20000 in
theorem gJ0_charAt_5068e_J1_charAt_3b067 : GoodIn wsJ0_charAt_5068e (va_wsS RJ0 495 yJ1_charAt_3b067 wsJ1_charAt_3b067) := goodIn_app (goodIn_of _ (by decide +kernel)) ggJ0_charAt_5068e_J1_charAt_3b067
set_option maxRecDepth 20000 in
theorem ggJ0_charAt_5068e_J2_charAt_3b067 : GoodIn wsJ0_charAt_5068e wsJ2_charAt_3b067 := goodIn_r _ [24, 25, 26, 23, 27, 28, 29, 30, 31, 14, 5, 15, 16, 17, 18, 19, 20, 32, 33, 34, 35, 36, 37] (by decide +kernel) (by decide +kernel)
set_option maxRecDepth 20000 in
theorem gJ0_charAt_5068e_J2_charAt_3b067 : GoodIn wsJ0_charAt_5068e (va_wsS RJ0 498 yJ2_charAt_3b067 wsJ2_charAt_3b067) := goodIn_app (goodIn_of _ (by decide +kernel)) ggJ0_charAt_5068e_J2_charAt_3b067
theorem dJ0_charAt_5068e_0 : decode cJ0_charAt_5068e 0 = .ok (.aload_n 0, 1) := by decide +kernel
theorem dJ0_charAt_5068e_1 : decode cJ0_charAt_5068e 1 = .ok (.invokevirtual 492, 3) := by decide +kernel
theorem dJ0_charAt_5068e_4 : decode cJ0_charAt_5068e 4 = .ok (.ifCond .eq 12, 3) := by decide +kernel
theorem dJ0_charAt_5068e_7 : decode cJ0_charAt_5068e 7 = .ok (.aload_n 0, 1) := by decide +kernel
theorem dJ0_charAt_5068e_8 : decode cJ0_charAt_5068e 8 = .ok (.getfield 9, 3) := by decide +kernel
theorem dJ0_charAt_5068e_11 : decode cJ0_charAt_5068e 11 = .ok (.iload_n 1, 1) := by decide +kernel
theorem dJ0_charAt_5068e_12 : decode cJ0_charAt_5068e 12 = .ok (.invokestatic 495, 3) := by decide +kernel
theorem dJ0_charAt_5068e_15 : decode cJ0_charAt_5068e 15 = .ok (.ireturn, 1) := by decide +kernel
theorem dJ0_charAt_5068e_16 : decode cJ0_charAt_5068e 16 = .ok (.aload_n 0, 1) := by decide +kernel
theorem dJ0_charAt_5068e_17 : decode cJ0_charAt_5068e 17 = .ok (.getfield 9, 3) := by decide +kernel
theorem dJ0_charAt_5068e_20 : decode cJ0_charAt_5068e 20 = .ok (.iload_n 1, 1) := by decide +kernel
theorem dJ0_charAt_5068e_21 : decode cJ0_charAt_5068e 21 = .ok (.invokestatic 498, 3) := by decide +kernel
theorem dJ0_charAt_5068e_24 : decode cJ0_charAt_5068e 24 = .ok (.ireturn, 1) := by decide +kernel
theorem dJ0_coder_7d493_0 : decode cJ0_coder_7d493 0 = .ok (.getstatic 38, 3) := by decide +kernel
theorem dJ0_coder_7d493_3 : decode cJ0_coder_7d493 3 = .ok (.ifCond .eq 10, 3) := by decide +kernel
theorem dJ0_coder_7d493_6 : decode cJ0_coder_7d493 6 = .ok (.aload_n 0, 1) := by decide +kernel
theorem dJ0_coder_7d493_7 : decode cJ0_coder_7d493 7 = .ok (.getfield 15, 3) := by decide +kernel
theorem dJ0_coder_7d493_10 : decode cJ0_coder_7d493 10 = .ok (.goto 4, 3) := by decide +kernel
theorem dJ0_coder_7d493_13 : decode cJ0_coder_7d493 13 = .ok (.iconst 1, 1) := by decide +kernel
theorem dJ0_coder_7d493_14 : decode cJ0_coder_7d493 14 = .ok (.ireturn, 1) := by decide +kernel
theorem dJ0_isLatin1_aae02_0 : decode cJ0_isLatin1_aae02 0 = .ok (.getstatic 38, 3) := by decide +kernel
theorem dJ0_isLatin1_aae02_3 : decode cJ0_isLatin1_aae02 3 = .ok (.ifCond .eq 14, 3) := by decide +kernel
theorem dJ0_isLatin1_aae02_6 : decode cJ0_isLatin1_aae02 6 = .ok (.aload_n 0, 1) := by decide +kernel
theorem dJ0_isLatin1_aae02_7 : decode cJ0_isLatin1_aae02 7 = .ok (.getfield 15, 3) := by decide +kernel
theorem dJ0_isLatin1_aae02_10 : decode cJ0_isLatin1_aae02 10 = .ok (.ifCond .ne 7, 3) := by decide +kernel
theorem dJ0_isLatin1_aae02_13 : decode cJ0_isLatin1_aae02 13 = .ok (.iconst 1, 1) := by decide +kernel
theorem dJ0_isLatin1_aae02_14 : decode cJ0_isLatin1_aae02 14 = .ok (.goto 4, 3) := by decide +kernel
theorem dJ0_isLatin1_aae02_17 : decode cJ0_isLatin1_aae02 17 = .ok (.iconst 0, 1) := by decide +kernel
theorem dJ0_isLatin1_aae02_18 : decode cJ0_isLatin1_aae02 18 = .ok (.ireturn, 1) := by decide +kernel
set_option maxRecDepth 20000 in
theorem ggJ0_checkIndex_df160_J3_checkIndex_8e157 : GoodIn wsJ0_checkIndex_df160 wsJ3_checkIndex_8e157 := goodIn_r _ [5] (by decide +kernel) (by decide +kernel)
set_option maxRecDepth 20000 in
theorem gJ0_checkIndex_df160_J3_checkIndex_8e157 : GoodIn wsJ0_checkIndex_df160 (va_wsS RJ0 1059 yJ3_checkIndex_8e157 wsJ3_checkIndex_8e157) := goodIn_app (goodIn_of _ (by decide +kernel)) ggJ0_checkIndex_df160_J3_checkIndex_8e157
theorem dJ0_checkIndex_df160_0 : decode cJ0_checkIndex_df160 0 = .ok (.iload_n 0, 1) := by decide +kernel
theorem dJ0_checkIndex_df160_1 : decode cJ0_checkIndex_df160 1 = .ok (.iload_n 1, 1) := by decide +kernel
theorem dJ0_checkIndex_df160_2 : decode cJ0_checkIndex_df160 2 = .ok (.getstatic 1053, 3) := by decide +kernel
theorem dJ0_checkIndex_df160_5 : decode cJ0_checkIndex_df160 5 = .ok (.invokestatic 1059, 3) := by decide +kernel
theorem dJ0_checkIndex_df160_8 : decode cJ0_checkIndex_df160 8 = .ok (.pop, 1) := by decide +kernel
theorem dJ0_checkIndex_df160_9 : decode cJ0_checkIndex_df160 9 = .ok (.return_, 1) := by decide +kernel
set_option maxRecDepth 20000 in
theorem ggJ1_charAt_3b067_J0_checkIndex_df160 : GoodIn wsJ1_charAt_3b067 wsJ0_checkIndex_df160 := goodIn_r _ [4, 5, 6, 7, 8, 9] (by decide +kernel) (by decide +kernel)
set_option maxRecDepth 20000 in
theorem gJ1_charAt_3b067_J0_checkIndex_df160 : GoodIn wsJ1_charAt_3b067 (va_wsS RJ1 9 yJ0_checkIndex_df160 wsJ0_checkIndex_df160) := goodIn_app (goodIn_of _ (by decide +kernel)) ggJ1_charAt_3b067_J0_checkIndex_df160
theorem dJ1_charAt_3b067_0 : decode cJ1_charAt_3b067 0 = .ok (.iload_n 1, 1) := by decide +kernel
theorem dJ1_charAt_3b067_1 : decode cJ1_charAt_3b067 1 = .ok (.aload_n 0, 1) := by decide +kernel
theorem dJ1_charAt_3b067_2 : decode cJ1_charAt_3b067 2 = .ok (.arraylength, 1) := by decide +kernel
theorem dJ1_charAt_3b067_3 : decode cJ1_charAt_3b067 3 = .ok (.invokestatic 9, 3) := by decide +kernel
theorem dJ1_charAt_3b067_6 : decode cJ1_charAt_3b067 6 = .ok (.aload_n 0, 1) := by decide +kernel
theorem dJ1_charAt_3b067_7 : decode cJ1_charAt_3b067 7 = .ok (.iload_n 1, 1) := by decide +kernel
theorem dJ1_charAt_3b067_8 : decode cJ1_charAt_3b067 8 = .ok (.baload, 1) := by decide +kernel
theorem dJ1_charAt_3b067_9 : decode cJ1_charAt_3b067 9 = .ok (.sipush 255, 3) := by decide +kernel
theorem dJ1_charAt_3b067_12 : decode cJ1_charAt_3b067 12 = .ok (.iand, 1) := by decide +kernel
theorem dJ1_charAt_3b067_13 : decode cJ1_charAt_3b067 13 = .ok (.i2c, 1) := by decide +kernel
theorem dJ1_charAt_3b067_14 : decode cJ1_charAt_3b067 14 = .ok (.ireturn, 1) := by decide +kernel
set_option maxRecDepth 20000 in
theorem ggJ2_getChar_3b067_J2_length_9d52b : GoodIn wsJ2_getChar_3b067 wsJ2_length_9d52b := goodIn_r _ [7] (by decide +kernel) (by decide +kernel)
set_option maxRecDepth 20000 in
theorem gJ2_getChar_3b067_J2_length_9d52b : GoodIn wsJ2_getChar_3b067 (va_wsS RJ2 48 yJ2_length_9d52b wsJ2_length_9d52b) := goodIn_app (goodIn_of _ (by decide +kernel)) ggJ2_getChar_3b067_J2_length_9d52b
theorem dJ2_getChar_3b067_0 : decode cJ2_getChar_3b067 0 = .ok (.getstatic 44, 3) := by decide +kernel
theorem dJ2_getChar_3b067_3 : decode cJ2_getChar_3b067 3 = .ok (.ifCond .ne 25, 3) := by decide +kernel
theorem dJ2_getChar_3b067_6 : decode cJ2_getChar_3b067 6 = .ok (.iload_n 1, 1) := by decide +kernel
theorem dJ2_getChar_3b067_7 : decode cJ2_getChar_3b067 7 = .ok (.ifCond .lt 11, 3) := by decide +kernel
theorem dJ2_getChar_3b067_10 : decode cJ2_getChar_3b067 10 = .ok (.iload_n 1, 1) := by decide +kernel
theorem dJ2_getChar_3b067_11 : decode cJ2_getChar_3b067 11 = .ok (.aload_n 0, 1) := by decide +kernel
theorem dJ2_getChar_3b067_12 : decode cJ2_getChar_3b067 12 = .ok (.invokestatic 48, 3) := by decide +kernel
theorem dJ2_getChar_3b067_15 : decode cJ2_getChar_3b067 15 = .ok (.if_icmp .lt 13, 3) := by decide +kernel
theorem dJ2_getChar_3b067_18 : decode cJ2_getChar_3b067 18 = .ok (.new 52, 3) := by decide +kernel
theorem dJ2_getChar_3b067_21 : decode cJ2_getChar_3b067 21 = .ok (.dup, 1) := by decide +kernel
theorem dJ2_getChar_3b067_22 : decode cJ2_getChar_3b067 22 = .ok (.ldc 54, 2) := by decide +kernel
theorem dJ2_getChar_3b067_24 : decode cJ2_getChar_3b067 24 = .ok (.invokespecial 56, 3) := by decide +kernel
theorem dJ2_getChar_3b067_27 : decode cJ2_getChar_3b067 27 = .ok (.athrow, 1) := by decide +kernel
theorem dJ2_getChar_3b067_28 : decode cJ2_getChar_3b067 28 = .ok (.iload_n 1, 1) := by decide +kernel
theorem dJ2_getChar_3b067_29 : decode cJ2_getChar_3b067 29 = .ok (.iconst 1, 1) := by decide +kernel
theorem dJ2_getChar_3b067_30 : decode cJ2_getChar_3b067 30 = .ok (.ishl, 1) := by decide +kernel
theorem dJ2_getChar_3b067_31 : decode cJ2_getChar_3b067 31 = .ok (.istore_n 1, 1) := by decide +kernel
theorem dJ2_getChar_3b067_32 : decode cJ2_getChar_3b067 32 = .ok (.aload_n 0, 1) := by decide +kernel
theorem dJ2_getChar_3b067_33 : decode cJ2_getChar_3b067 33 = .ok (.iload_n 1, 1) := by decide +kernel
theorem dJ2_getChar_3b067_34 : decode cJ2_getChar_3b067 34 = .ok (.iinc 1 1, 3) := by decide +kernel
theorem dJ2_getChar_3b067_37 : decode cJ2_getChar_3b067 37 = .ok (.baload, 1) := by decide +kernel
theorem dJ2_getChar_3b067_38 : decode cJ2_getChar_3b067 38 = .ok (.sipush 255, 3) := by decide +kernel
theorem dJ2_getChar_3b067_41 : decode cJ2_getChar_3b067 41 = .ok (.iand, 1) := by decide +kernel
theorem dJ2_getChar_3b067_42 : decode cJ2_getChar_3b067 42 = .ok (.getstatic 59, 3) := by decide +kernel
theorem dJ2_getChar_3b067_45 : decode cJ2_getChar_3b067 45 = .ok (.ishl, 1) := by decide +kernel
theorem dJ2_getChar_3b067_46 : decode cJ2_getChar_3b067 46 = .ok (.aload_n 0, 1) := by decide +kernel
theorem dJ2_getChar_3b067_47 : decode cJ2_getChar_3b067 47 = .ok (.iload_n 1, 1) := by decide +kernel
theorem dJ2_getChar_3b067_48 : decode cJ2_getChar_3b067 48 = .ok (.baload, 1) := by decide +kernel
theorem dJ2_getChar_3b067_49 : decode cJ2_getChar_3b067 49 = .ok (.sipush 255, 3) := by decide +kernel
theorem dJ2_getChar_3b067_52 : decode cJ2_getChar_3b067 52 = .ok (.iand, 1) := by decide +kernel
theorem dJ2_getChar_3b067_53 : decode cJ2_getChar_3b067 53 = .ok (.getstatic 63, 3) := by decide +kernel
theorem dJ2_getChar_3b067_56 : decode cJ2_getChar_3b067 56 = .ok (.ishl, 1) := by decide +kernel
theorem dJ2_getChar_3b067_57 : decode cJ2_getChar_3b067 57 = .ok (.ior, 1) := by decide +kernel
theorem dJ2_getChar_3b067_58 : decode cJ2_getChar_3b067 58 = .ok (.i2c, 1) := by decide +kernel
theorem dJ2_getChar_3b067_59 : decode cJ2_getChar_3b067 59 = .ok (.ireturn, 1) := by decide +kernel
theorem dJ2_length_9d52b_0 : decode cJ2_length_9d52b 0 = .ok (.aload_n 0, 1) := by decide +kernel
theorem dJ2_length_9d52b_1 : decode cJ2_length_9d52b 1 = .ok (.arraylength, 1) := by decide +kernel
theorem dJ2_length_9d52b_2 : decode cJ2_length_9d52b 2 = .ok (.iconst 1, 1) := by decide +kernel
theorem dJ2_length_9d52b_3 : decode cJ2_length_9d52b 3 = .ok (.ishr, 1) := by decide +kernel
theorem dJ2_length_9d52b_4 : decode cJ2_length_9d52b 4 = .ok (.ireturn, 1) := by decide +kernel
set_option maxRecDepth 20000 in
theorem ggJ2_charAt_3b067_J2_checkIndex_2214a : GoodIn wsJ2_charAt_3b067 wsJ2_checkIndex_2214a := goodIn_r _ [4, 5, 6, 3, 7, 8, 9, 10, 11, 12, 13, 14, 15, 16] (by decide +kernel) (by decide +kernel)
set_option maxRecDepth 20000 in
theorem gJ2_charAt_3b067_J2_checkIndex_2214a : GoodIn wsJ2_charAt_3b067 (va_wsS RJ2 67 yJ2_checkIndex_2214a wsJ2_checkIndex_2214a) := goodIn_app (goodIn_of _ (by decide +kernel)) ggJ2_charAt_3b067_J2_checkIndex_2214a
set_option maxRecDepth 20000 in
theorem ggJ2_charAt_3b067_J2_getChar_3b067 : GoodIn wsJ2_charAt_3b067 wsJ2_getChar_3b067 := goodIn_r _ [19, 20, 21, 22, 5, 6, 3, 7] (by decide +kernel) (by decide +kernel)
set_option maxRecDepth 20000 in
theorem gJ2_charAt_3b067_J2_getChar_3b067 : GoodIn wsJ2_charAt_3b067 (va_wsS RJ2 71 yJ2_getChar_3b067 wsJ2_getChar_3b067) := goodIn_app (goodIn_of _ (by decide +kernel)) ggJ2_charAt_3b067_J2_getChar_3b067
theorem dJ2_charAt_3b067_0 : decode cJ2_charAt_3b067 0 = .ok (.iload_n 1, 1) := by decide +kernel
theorem dJ2_charAt_3b067_1 : decode cJ2_charAt_3b067 1 = .ok (.aload_n 0, 1) := by decide +kernel
theorem dJ2_charAt_3b067_2 : decode cJ2_charAt_3b067 2 = .ok (.invokestatic 67, 3) := by decide +kernel
theorem dJ2_charAt_3b067_5 : decode cJ2_charAt_3b067 5 = .ok (.aload_n 0, 1) := by decide +kernel
theorem dJ2_charAt_3b067_6 : decode cJ2_charAt_3b067 6 = .ok (.iload_n 1, 1) := by decide +kernel
theorem dJ2_charAt_3b067_7 : decode cJ2_charAt_3b067 7 = .ok (.invokestatic 71, 3) := by decide +kernel
theorem dJ2_charAt_3b067_10 : decode cJ2_charAt_3b067 10 = .ok (.ireturn, 1) := by decide +kernel
set_option maxRecDepth 20000 in
theorem ggJ2_checkIndex_2214a_J2_length_9d52b : GoodIn wsJ2_checkIndex_2214a wsJ2_length_9d52b := goodIn_r _ [4] (by decide +kernel) (by decide +kernel)
set_option maxRecDepth 20000 in
theorem gJ2_checkIndex_2214a_J2_length_9d52b : GoodIn wsJ2_checkIndex_2214a (va_wsS RJ2 48 yJ2_length_9d52b wsJ2_length_9d52b) := goodIn_app (goodIn_of _ (by decide +kernel)) ggJ2_checkIndex_2214a_J2_length_9d52b
set_option maxRecDepth 20000 in
theorem ggJ2_checkIndex_2214a_J0_checkIndex_df160 : GoodIn wsJ2_checkIndex_2214a wsJ0_checkIndex_df160 := goodIn_r _ [8, 9, 10, 11, 12, 13] (by decide +kernel) (by decide +kernel)
set_option maxRecDepth 20000 in
theorem gJ2_checkIndex_2214a_J0_checkIndex_df160 : GoodIn wsJ2_checkIndex_2214a (va_wsS RJ2 414 yJ0_checkIndex_df160 wsJ0_checkIndex_df160) := goodIn_app (goodIn_of _ (by decide +kernel)) ggJ2_checkIndex_2214a_J0_checkIndex_df160
theorem dJ2_checkIndex_2214a_0 : decode cJ2_checkIndex_2214a 0 = .ok (.iload_n 0, 1) := by decide +kernel
theorem dJ2_checkIndex_2214a_1 : decode cJ2_checkIndex_2214a 1 = .ok (.aload_n 1, 1) := by decide +kernel
theorem dJ2_checkIndex_2214a_2 : decode cJ2_checkIndex_2214a 2 = .ok (.invokestatic 48, 3) := by decide +kernel
theorem dJ2_checkIndex_2214a_5 : decode cJ2_checkIndex_2214a 5 = .ok (.invokestatic 414, 3) := by decide +kernel
theorem dJ2_checkIndex_2214a_8 : decode cJ2_checkIndex_2214a 8 = .ok (.return_, 1) := by decide +kernel
theorem dJ3_checkIndex_8e157_0 : decode cJ3_checkIndex_8e157 0 = .ok (.iload_n 0, 1) := by decide +kernel
theorem dJ3_checkIndex_8e157_1 : decode cJ3_checkIndex_8e157 1 = .ok (.ifCond .lt 8, 3) := by decide +kernel
theorem dJ3_checkIndex_8e157_4 : decode cJ3_checkIndex_8e157 4 = .ok (.iload_n 0, 1) := by decide +kernel
theorem dJ3_checkIndex_8e157_5 : decode cJ3_checkIndex_8e157 5 = .ok (.iload_n 1, 1) := by decide +kernel
theorem dJ3_checkIndex_8e157_6 : decode cJ3_checkIndex_8e157 6 = .ok (.if_icmp .lt 10, 3) := by decide +kernel
theorem dJ3_checkIndex_8e157_9 : decode cJ3_checkIndex_8e157 9 = .ok (.aload_n 2, 1) := by decide +kernel
theorem dJ3_checkIndex_8e157_10 : decode cJ3_checkIndex_8e157 10 = .ok (.iload_n 0, 1) := by decide +kernel
theorem dJ3_checkIndex_8e157_11 : decode cJ3_checkIndex_8e157 11 = .ok (.iload_n 1, 1) := by decide +kernel
theorem dJ3_checkIndex_8e157_12 : decode cJ3_checkIndex_8e157 12 = .ok (.invokestatic 95, 3) := by decide +kernel
theorem dJ3_checkIndex_8e157_15 : decode cJ3_checkIndex_8e157 15 = .ok (.athrow, 1) := by decide +kernel
theorem dJ3_checkIndex_8e157_16 : decode cJ3_checkIndex_8e157 16 = .ok (.iload_n 0, 1) := by decide +kernel
theorem dJ3_checkIndex_8e157_17 : decode cJ3_checkIndex_8e157 17 = .ok (.ireturn, 1) := by decide +kernel
set_option maxRecDepth 20000 in
theorem ggL_add_X7_add : GoodIn wsL_add wsX7_add := goodIn_ca (goodIn_ca (goodIn_r _ [6, 7, 8, 9, 5, 10, 11, 12, 13, 14, 15, 16, 17, 18, 19, 20, 21, 22, 23, 24, 25, 26, 27, 28, 29, 30, 31, 32, 33, 34, 35, 36, 37, 38, 39, 40, 41, 42, 43, 44, 45, 46] (by decide +kernel) (by decide +kernel)) (goodIn_sub (fun _ h => List.mem_cons_of_mem _ (List.mem_append_left _ (List.mem_append_right _ h))) (by decide +kernel))) (goodIn_sub (fun _ h => List.mem_cons_of_mem _ (List.mem_append_right _ h)) (by decide +kernel))
set_option maxRecDepth 20000 in
theorem gL_add_X7_add : GoodIn wsL_add (wsV RL 7 RX7 yX7_add wsX7_add) := goodIn_app (goodIn_of _ (by decide +kernel)) ggL_add_X7_add
theorem dL_add_0 : decode cL_add 0 = .ok (.aload_n 3, 1) := by decide +kernel
theorem dL_add_1 : decode cL_add 1 = .ok (.iconst 0, 1) := by decide +kernel
theorem dL_add_2 : decode cL_add 2 = .ok (.aload_n 0, 1) := by decide +kernel
theorem dL_add_3 : decode cL_add 3 = .ok (.iload_n 1, 1) := by decide +kernel
theorem dL_add_4 : decode cL_add 4 = .ok (.iload_n 2, 1) := by decide +kernel
theorem dL_add_5 : decode cL_add 5 = .ok (.invokevirtual 7, 3) := by decide +kernel
theorem dL_add_8 : decode cL_add 8 = .ok (.ifCond .eq 7, 3) := by decide +kernel
theorem dL_add_11 : decode cL_add 11 = .ok (.lconst 1, 1) := by decide +kernel
theorem dL_add_12 : decode cL_add 12 = .ok (.goto 4, 3) := by decide +kernel
theorem dL_add_15 : decode cL_add 15 = .ok (.lconst 0, 1) := by decide +kernel
theorem dL_add_16 : decode cL_add 16 = .ok (.lastore, 1) := by decide +kernel
theorem dL_add_17 : decode cL_add 17 = .ok (.goto 11, 3) := by decide +kernel
theorem dL_add_20 : decode cL_add 20 = .ok (.astore 4, 2) := by decide +kernel
theorem dL_add_22 : decode cL_add 22 = .ok (.iconst 1, 1) := by decide +kernel
theorem dL_add_23 : decode cL_add 23 = .ok (.ireturn, 1) := by decide +kernel
theorem dL_add_24 : decode cL_add 24 = .ok (.astore 4, 2) := by decide +kernel
theorem dL_add_26 : decode cL_add 26 = .ok (.iconst 2, 1) := by decide +kernel
theorem dL_add_27 : decode cL_add 27 = .ok (.ireturn, 1) := by decide +kernel
theorem dL_add_28 : decode cL_add 28 = .ok (.iconst 0, 1) := by decide +kernel
theorem dL_add_29 : decode cL_add 29 = .ok (.ireturn, 1) := by decide +kernel
set_option maxRecDepth 20000 in
theorem ggL_remove_X7_remove : GoodIn wsL_remove wsX7_remove := goodIn_ca (goodIn_ca (goodIn_r _ [6, 7, 8, 9, 5, 10, 11, 12, 13, 14, 15, 16, 17, 18, 19, 20, 21, 22, 23, 24, 25, 26, 27, 28, 29, 30, 31, 32, 33, 34, 35, 36, 37, 38, 39, 40, 41, 42, 43, 44, 45, 46] (by decide +kernel) (by decide +kernel)) (goodIn_sub (fun _ h => List.mem_cons_of_mem _ (List.mem_append_left _ (List.mem_append_right _ h))) (by decide +kernel))) (goodIn_sub (fun _ h => List.mem_cons_of_mem _ (List.mem_append_right _ h)) (by decide +kernel))
set_option maxRecDepth 20000 in
theorem gL_remove_X7_remove : GoodIn wsL_remove (wsV RL 17 RX7 yX7_remove wsX7_remove) := goodIn_app (goodIn_of _ (by decide +kernel)) ggL_remove_X7_remove
theorem dL_remove_0 : decode cL_remove 0 = .ok (.aload_n 3, 1) := by decide +kernel
theorem dL_remove_1 : decode cL_remove 1 = .ok (.iconst 0, 1) := by decide +kernel
theorem dL_remove_2 : decode cL_remove 2 = .ok (.aload_n 0, 1) := by decide +kernel
theorem dL_remove_3 : decode cL_remove 3 = .ok (.iload_n 1, 1) := by decide +kernel
theorem dL_remove_4 : decode cL_remove 4 = .ok (.iload_n 2, 1) := by decide +kernel
theorem dL_remove_5 : decode cL_remove 5 = .ok (.invokevirtual 17, 3) := by decide +kernel
theorem dL_remove_8 : decode cL_remove 8 = .ok (.ifCond .eq 7, 3) := by decide +kernel
theorem dL_remove_11 : decode cL_remove 11 = .ok (.lconst 1, 1) := by decide +kernel
theorem dL_remove_12 : decode cL_remove 12 = .ok (.goto 4, 3) := by decide +kernel
theorem dL_remove_15 : decode cL_remove 15 = .ok (.lconst 0, 1) := by decide +kernel
theorem dL_remove_16 : decode cL_remove 16 = .ok (.lastore, 1) := by decide +kernel
theorem dL_remove_17 : decode cL_remove 17 = .ok (.goto 11, 3) := by decide +kernel
theorem dL_remove_20 : decode cL_remove 20 = .ok (.astore 4, 2) := by decide +kernel
theorem dL_remove_22 : decode cL_remove 22 = .ok (.iconst 1, 1) := by decide +kernel
theorem dL_remove_23 : decode cL_remove 23 = .ok (.ireturn, 1) := by decide +kernel
theorem dL_remove_24 : decode cL_remove 24 = .ok (.astore 4, 2) := by decide +kernel
theorem dL_remove_26 : decode cL_remove 26 = .ok (.iconst 2, 1) := by decide +kernel
theorem dL_remove_27 : decode cL_remove 27 = .ok (.ireturn, 1) := by decide +kernel
theorem dL_remove_28 : decode cL_remove 28 = .ok (.iconst 0, 1) := by decide +kernel
theorem dL_remove_29 : decode cL_remove 29 = .ok (.ireturn, 1) := by decide +kernel
set_option maxRecDepth 20000 in
theorem ggL_has_X7_has : GoodIn wsL_has wsX7_has := goodIn_ca (goodIn_ca (goodIn_r _ [6, 7, 8, 9, 5, 10, 11, 12, 13, 14, 15, 16, 17, 18, 19, 20, 21, 22, 23, 24, 25, 26, 27, 28, 29, 30, 31, 32, 33, 34, 35, 36, 37, 38] (by decide +kernel) (by decide +kernel)) (goodIn_sub (fun _ h => List.mem_cons_of_mem _ (List.mem_append_left _ (List.mem_append_right _ h))) (by decide +kernel))) (goodIn_sub (fun _ h => List.mem_cons_of_mem _ (List.mem_append_right _ h)) (by decide +kernel))
set_option maxRecDepth 20000 in
theorem gL_has_X7_has : GoodIn wsL_has (wsV RL 20 RX7 yX7_has wsX7_has) := goodIn_app (goodIn_of _ (by decide +kernel)) ggL_has_X7_has
theorem dL_has_0 : decode cL_has 0 = .ok (.aload_n 3, 1) := by decide +kernel
theorem dL_has_1 : decode cL_has 1 = .ok (.iconst 0, 1) := by decide +kernel
theorem dL_has_2 : decode cL_has 2 = .ok (.aload_n 0, 1) := by decide +kernel
theorem dL_has_3 : decode cL_has 3 = .ok (.iload_n 1, 1) := by decide +kernel
theorem dL_has_4 : decode cL_has 4 = .ok (.iload_n 2, 1) := by decide +kernel
theorem dL_has_5 : decode cL_has 5 = .ok (.invokevirtual 20, 3) := by decide +kernel
theorem dL_has_8 : decode cL_has 8 = .ok (.ifCond .eq 7, 3) := by decide +kernel
theorem dL_has_11 : decode cL_has 11 = .ok (.lconst 1, 1) := by decide +kernel
theorem dL_has_12 : decode cL_has 12 = .ok (.goto 4, 3) := by decide +kernel
theorem dL_has_15 : decode cL_has 15 = .ok (.lconst 0, 1) := by decide +kernel
theorem dL_has_16 : decode cL_has 16 = .ok (.lastore, 1) := by decide +kernel
theorem dL_has_17 : decode cL_has 17 = .ok (.goto 11, 3) := by decide +kernel
theorem dL_has_20 : decode cL_has 20 = .ok (.astore 4, 2) := by decide +kernel
theorem dL_has_22 : decode cL_has 22 = .ok (.iconst 1, 1) := by decide +kernel
theorem dL_has_23 : decode cL_has 23 = .ok (.ireturn, 1) := by decide +kernel
theorem dL_has_24 : decode cL_has 24 = .ok (.astore 4, 2) := by decide +kernel
theorem dL_has_26 : decode cL_has 26 = .ok (.iconst 2, 1) := by decide +kernel
theorem dL_has_27 : decode cL_has 27 = .ok (.ireturn, 1) := by decide +kernel
theorem dL_has_28 : decode cL_has 28 = .ok (.iconst 0, 1) := by decide +kernel
theorem dL_has_29 : decode cL_has 29 = .ok (.ireturn, 1) := by decide +kernel
set_option maxRecDepth 20000 in
theorem ggL_size_X7_size : GoodIn wsL_size wsX7_size := goodIn_ca (goodIn_r _ [6, 7, 8, 9, 5, 10, 11, 12, 13, 14, 15, 16, 17, 18, 19, 20, 21, 22, 23, 24, 25, 26, 27, 28, 29, 30, 31, 32, 33, 34, 35, 36, 37] (by decide +kernel) (by decide +kernel)) (goodIn_sub (fun _ h => List.mem_cons_of_mem _ (List.mem_append_right _ h)) (by decide +kernel))
set_option maxRecDepth 20000 in
theorem gL_size_X7_size : GoodIn wsL_size (wsV RL 23 RX7 yX7_size wsX7_size) := goodIn_app (goodIn_of _ (by decide +kernel)) ggL_size_X7_size
theorem dL_size_0 : decode cL_size 0 = .ok (.aload_n 2, 1) := by decide +kernel
theorem dL_size_1 : decode cL_size 1 = .ok (.iconst 0, 1) := by decide +kernel
theorem dL_size_2 : decode cL_size 2 = .ok (.aload_n 0, 1) := by decide +kernel
theorem dL_size_3 : decode cL_size 3 = .ok (.iload_n 1, 1) := by decide +kernel
theorem dL_size_4 : decode cL_size 4 = .ok (.invokevirtual 23, 3) := by decide +kernel
theorem dL_size_7 : decode cL_size 7 = .ok (.i2l, 1) := by decide +kernel
theorem dL_size_8 : decode cL_size 8 = .ok (.lastore, 1) := by decide +kernel
theorem dL_size_9 : decode cL_size 9 = .ok (.goto 6, 3) := by decide +kernel
theorem dL_size_12 : decode cL_size 12 = .ok (.astore_n 3, 1) := by decide +kernel
theorem dL_size_13 : decode cL_size 13 = .ok (.iconst 1, 1) := by decide +kernel
theorem dL_size_14 : decode cL_size 14 = .ok (.ireturn, 1) := by decide +kernel
theorem dL_size_15 : decode cL_size 15 = .ok (.iconst 0, 1) := by decide +kernel
theorem dL_size_16 : decode cL_size 16 = .ok (.ireturn, 1) := by decide +kernel
set_option maxRecDepth 20000 in
theorem ggL_sum_X7_sum : GoodIn wsL_sum wsX7_sum := goodIn_ca (goodIn_r _ [6, 7, 8, 9, 5, 10, 11, 12, 13, 14, 15, 16, 17, 18, 19, 20, 21, 22, 23, 24, 25, 26, 27, 28, 29, 30, 31, 32, 33, 34] (by decide +kernel) (by decide +kernel)) (goodIn_sub (fun _ h => List.mem_cons_of_mem _ (List.mem_append_right _ h)) (by decide +kernel))
set_option maxRecDepth 20000 in
theorem gL_sum_X7_sum : GoodIn wsL_sum (wsV RL 27 RX7 yX7_sum wsX7_sum) := goodIn_app (goodIn_of _ (by decide +kernel)) ggL_sum_X7_sum
theorem dL_sum_0 : decode cL_sum 0 = .ok (.aload_n 2, 1) := by decide +kernel
theorem dL_sum_1 : decode cL_sum 1 = .ok (.iconst 0, 1) := by decide +kernel
theorem dL_sum_2 : decode cL_sum 2 = .ok (.aload_n 0, 1) := by decide +kernel
theorem dL_sum_3 : decode cL_sum 3 = .ok (.iload_n 1, 1) := by decide +kernel
theorem dL_sum_4 : decode cL_sum 4 = .ok (.invokevirtual 27, 3) := by decide +kernel
theorem dL_sum_7 : decode cL_sum 7 = .ok (.i2l, 1) := by decide +kernel
theorem dL_sum_8 : decode cL_sum 8 = .ok (.lastore, 1) := by decide +kernel
theorem dL_sum_9 : decode cL_sum 9 = .ok (.goto 6, 3) := by decide +kernel
theorem dL_sum_12 : decode cL_sum 12 = .ok (.astore_n 3, 1) := by decide +kernel
theorem dL_sum_13 : decode cL_sum 13 = .ok (.iconst 1, 1) := by decide +kernel
theorem dL_sum_14 : decode cL_sum 14 = .ok (.ireturn, 1) := by decide +kernel
theorem dL_sum_15 : decode cL_sum 15 = .ok (.iconst 0, 1) := by decide +kernel
theorem dL_sum_16 : decode cL_sum 16 = .ok (.ireturn, 1) := by decide +kernel
set_option maxRecDepth 20000 in
theorem ggL_clear_X7_clear : GoodIn wsL_clear wsX7_clear := goodIn_ca (goodIn_r _ [6, 7, 8, 9, 5, 10, 11, 12, 13, 14, 15, 16, 17, 18, 19, 20, 21, 22, 23, 24, 25, 26, 27, 28, 29, 30, 31, 32, 33, 34, 35, 36, 37, 38, 39, 40, 41] (by decide +kernel) (by decide +kernel)) (goodIn_sub (fun _ h => List.mem_cons_of_mem _ (List.mem_append_right _ h)) (by decide +kernel))
set_option maxRecDepth 20000 in
theorem gL_clear_X7_clear : GoodIn wsL_clear (wsV RL 30 RX7 yX7_clear wsX7_clear) := goodIn_app (goodIn_of _ (by decide +kernel)) ggL_clear_X7_clear
theorem dL_clear_0 : decode cL_clear 0 = .ok (.aload_n 2, 1) := by decide +kernel
theorem dL_clear_1 : decode cL_clear 1 = .ok (.iconst 0, 1) := by decide +kernel
theorem dL_clear_2 : decode cL_clear 2 = .ok (.aload_n 0, 1) := by decide +kernel
theorem dL_clear_3 : decode cL_clear 3 = .ok (.iload_n 1, 1) := by decide +kernel
theorem dL_clear_4 : decode cL_clear 4 = .ok (.invokevirtual 30, 3) := by decide +kernel
theorem dL_clear_7 : decode cL_clear 7 = .ok (.i2l, 1) := by decide +kernel
theorem dL_clear_8 : decode cL_clear 8 = .ok (.lastore, 1) := by decide +kernel
theorem dL_clear_9 : decode cL_clear 9 = .ok (.goto 6, 3) := by decide +kernel
theorem dL_clear_12 : decode cL_clear 12 = .ok (.astore_n 3, 1) := by decide +kernel
theorem dL_clear_13 : decode cL_clear 13 = .ok (.iconst 1, 1) := by decide +kernel
theorem dL_clear_14 : decode cL_clear 14 = .ok (.ireturn, 1) := by decide +kernel
theorem dL_clear_15 : decode cL_clear 15 = .ok (.iconst 0, 1) := by decide +kernel
theorem dL_clear_16 : decode cL_clear 16 = .ok (.ireturn, 1) := by decide +kernel
set_option maxRecDepth 20000 in
theorem ggL_fill_X7_fill : GoodIn wsL_fill wsX7_fill := goodIn_ca (goodIn_ca (goodIn_r _ [6, 7, 8, 9, 5, 10, 11, 12, 13, 14, 15, 16, 17, 18, 19, 20, 21, 22, 23, 24, 25, 26, 27, 28, 29, 30, 31, 32, 33, 34, 35, 36, 37, 38, 39, 40, 41, 42, 43, 44, 45, 46, 47, 48, 49, 50, 51, 52, 53, 54, 55, 56, 57] (by decide +kernel) (by decide +kernel)) (goodIn_sub (fun _ h => List.mem_cons_of_mem _ (List.mem_append_left _ (List.mem_append_right _ h))) (by decide +kernel))) (goodIn_sub (fun _ h => List.mem_cons_of_mem _ (List.mem_append_right _ h)) (by decide +kernel))
set_option maxRecDepth 20000 in
theorem gL_fill_X7_fill : GoodIn wsL_fill (wsV RL 33 RX7 yX7_fill wsX7_fill) := goodIn_app (goodIn_of _ (by decide +kernel)) ggL_fill_X7_fill
theorem dL_fill_0 : decode cL_fill 0 = .ok (.aload 5, 2) := by decide +kernel
theorem dL_fill_2 : decode cL_fill 2 = .ok (.iconst 0, 1) := by decide +kernel
theorem dL_fill_3 : decode cL_fill 3 = .ok (.aload_n 0, 1) := by decide +kernel
theorem dL_fill_4 : decode cL_fill 4 = .ok (.iload_n 1, 1) := by decide +kernel
theorem dL_fill_5 : decode cL_fill 5 = .ok (.iload_n 2, 1) := by decide +kernel
theorem dL_fill_6 : decode cL_fill 6 = .ok (.iload_n 3, 1) := by decide +kernel
theorem dL_fill_7 : decode cL_fill 7 = .ok (.iload 4, 2) := by decide +kernel
theorem dL_fill_9 : decode cL_fill 9 = .ok (.invokevirtual 33, 3) := by decide +kernel
theorem dL_fill_12 : decode cL_fill 12 = .ok (.i2l, 1) := by decide +kernel
theorem dL_fill_13 : decode cL_fill 13 = .ok (.lastore, 1) := by decide +kernel
theorem dL_fill_14 : decode cL_fill 14 = .ok (.goto 11, 3) := by decide +kernel
theorem dL_fill_17 : decode cL_fill 17 = .ok (.astore 6, 2) := by decide +kernel
theorem dL_fill_19 : decode cL_fill 19 = .ok (.iconst 1, 1) := by decide +kernel
theorem dL_fill_20 : decode cL_fill 20 = .ok (.ireturn, 1) := by decide +kernel
theorem dL_fill_21 : decode cL_fill 21 = .ok (.astore 6, 2) := by decide +kernel
theorem dL_fill_23 : decode cL_fill 23 = .ok (.iconst 2, 1) := by decide +kernel
theorem dL_fill_24 : decode cL_fill 24 = .ok (.ireturn, 1) := by decide +kernel
theorem dL_fill_25 : decode cL_fill 25 = .ok (.iconst 0, 1) := by decide +kernel
theorem dL_fill_26 : decode cL_fill 26 = .ok (.ireturn, 1) := by decide +kernel
set_option maxRecDepth 20000 in
theorem ggL_memberAt_X7_memberAt : GoodIn wsL_memberAt wsX7_memberAt := goodIn_ca (goodIn_ca (goodIn_r _ [6, 7, 8, 9, 10, 11, 5, 12, 13, 14, 15, 16, 17, 18, 19, 20, 21, 22, 23, 24, 25, 26, 27, 28, 29, 30, 31, 32, 33, 34, 35, 36, 37, 38, 39] (by decide +kernel) (by decide +kernel)) (goodIn_sub (fun _ h => List.mem_cons_of_mem _ (List.mem_append_left _ (List.mem_append_right _ h))) (by decide +kernel))) (goodIn_sub (fun _ h => List.mem_cons_of_mem _ (List.mem_append_right _ h)) (by decide +kernel))
set_option maxRecDepth 20000 in
theorem gL_memberAt_X7_memberAt : GoodIn wsL_memberAt (wsV RL 37 RX7 yX7_memberAt wsX7_memberAt) := goodIn_app (goodIn_of _ (by decide +kernel)) ggL_memberAt_X7_memberAt
theorem dL_memberAt_0 : decode cL_memberAt 0 = .ok (.aload_n 3, 1) := by decide +kernel
theorem dL_memberAt_1 : decode cL_memberAt 1 = .ok (.iconst 0, 1) := by decide +kernel
theorem dL_memberAt_2 : decode cL_memberAt 2 = .ok (.aload_n 0, 1) := by decide +kernel
theorem dL_memberAt_3 : decode cL_memberAt 3 = .ok (.iload_n 1, 1) := by decide +kernel
theorem dL_memberAt_4 : decode cL_memberAt 4 = .ok (.iload_n 2, 1) := by decide +kernel
theorem dL_memberAt_5 : decode cL_memberAt 5 = .ok (.invokevirtual 37, 3) := by decide +kernel
theorem dL_memberAt_8 : decode cL_memberAt 8 = .ok (.i2l, 1) := by decide +kernel
theorem dL_memberAt_9 : decode cL_memberAt 9 = .ok (.lastore, 1) := by decide +kernel
theorem dL_memberAt_10 : decode cL_memberAt 10 = .ok (.goto 11, 3) := by decide +kernel
theorem dL_memberAt_13 : decode cL_memberAt 13 = .ok (.astore 4, 2) := by decide +kernel
theorem dL_memberAt_15 : decode cL_memberAt 15 = .ok (.iconst 1, 1) := by decide +kernel
theorem dL_memberAt_16 : decode cL_memberAt 16 = .ok (.ireturn, 1) := by decide +kernel
theorem dL_memberAt_17 : decode cL_memberAt 17 = .ok (.astore 4, 2) := by decide +kernel
theorem dL_memberAt_19 : decode cL_memberAt 19 = .ok (.iconst 2, 1) := by decide +kernel
theorem dL_memberAt_20 : decode cL_memberAt 20 = .ok (.ireturn, 1) := by decide +kernel
theorem dL_memberAt_21 : decode cL_memberAt 21 = .ok (.iconst 0, 1) := by decide +kernel
theorem dL_memberAt_22 : decode cL_memberAt 22 = .ok (.ireturn, 1) := by decide +kernel
set_option maxRecDepth 20000 in
theorem ggL_least_X7_least : GoodIn wsL_least wsX7_least := goodIn_ca (goodIn_ca (goodIn_r _ [6, 7, 8, 9, 5, 10, 11, 12, 13, 14, 15, 16, 17, 18, 19, 20, 21, 22, 23, 24, 25, 26, 27, 28, 29, 30, 31, 32, 33, 34, 35, 36, 37, 38, 39] (by decide +kernel) (by decide +kernel)) (goodIn_sub (fun _ h => List.mem_cons_of_mem _ (List.mem_append_left _ (List.mem_append_right _ h))) (by decide +kernel))) (goodIn_sub (fun _ h => List.mem_cons_of_mem _ (List.mem_append_right _ h)) (by decide +kernel))
set_option maxRecDepth 20000 in
theorem gL_least_X7_least : GoodIn wsL_least (wsV RL 43 RX7 yX7_least wsX7_least) := goodIn_app (goodIn_of _ (by decide +kernel)) ggL_least_X7_least
theorem dL_least_0 : decode cL_least 0 = .ok (.aload_n 2, 1) := by decide +kernel
theorem dL_least_1 : decode cL_least 1 = .ok (.iconst 0, 1) := by decide +kernel
theorem dL_least_2 : decode cL_least 2 = .ok (.aload_n 0, 1) := by decide +kernel
theorem dL_least_3 : decode cL_least 3 = .ok (.iload_n 1, 1) := by decide +kernel
theorem dL_least_4 : decode cL_least 4 = .ok (.invokevirtual 43, 3) := by decide +kernel
theorem dL_least_7 : decode cL_least 7 = .ok (.i2l, 1) := by decide +kernel
theorem dL_least_8 : decode cL_least 8 = .ok (.lastore, 1) := by decide +kernel
theorem dL_least_9 : decode cL_least 9 = .ok (.goto 9, 3) := by decide +kernel
theorem dL_least_12 : decode cL_least 12 = .ok (.astore_n 3, 1) := by decide +kernel
theorem dL_least_13 : decode cL_least 13 = .ok (.iconst 1, 1) := by decide +kernel
theorem dL_least_14 : decode cL_least 14 = .ok (.ireturn, 1) := by decide +kernel
theorem dL_least_15 : decode cL_least 15 = .ok (.astore_n 3, 1) := by decide +kernel
theorem dL_least_16 : decode cL_least 16 = .ok (.iconst 2, 1) := by decide +kernel
theorem dL_least_17 : decode cL_least 17 = .ok (.ireturn, 1) := by decide +kernel
theorem dL_least_18 : decode cL_least 18 = .ok (.iconst 0, 1) := by decide +kernel
theorem dL_least_19 : decode cL_least 19 = .ok (.ireturn, 1) := by decide +kernel
set_option maxRecDepth 20000 in
theorem ggL_greatest_X7_greatest : GoodIn wsL_greatest wsX7_greatest := goodIn_ca (goodIn_ca (goodIn_r _ [6, 7, 8, 9, 5, 10, 11, 12, 13, 14, 15, 16, 17, 18, 19, 20, 21, 22, 23, 24, 25, 26, 27, 28, 29, 30, 31, 32, 33, 34, 35, 36, 37, 38, 39] (by decide +kernel) (by decide +kernel)) (goodIn_sub (fun _ h => List.mem_cons_of_mem _ (List.mem_append_left _ (List.mem_append_right _ h))) (by decide +kernel))) (goodIn_sub (fun _ h => List.mem_cons_of_mem _ (List.mem_append_right _ h)) (by decide +kernel))
set_option maxRecDepth 20000 in
theorem gL_greatest_X7_greatest : GoodIn wsL_greatest (wsV RL 46 RX7 yX7_greatest wsX7_greatest) := goodIn_app (goodIn_of _ (by decide +kernel)) ggL_greatest_X7_greatest
theorem dL_greatest_0 : decode cL_greatest 0 = .ok (.aload_n 2, 1) := by decide +kernel
theorem dL_greatest_1 : decode cL_greatest 1 = .ok (.iconst 0, 1) := by decide +kernel
theorem dL_greatest_2 : decode cL_greatest 2 = .ok (.aload_n 0, 1) := by decide +kernel
theorem dL_greatest_3 : decode cL_greatest 3 = .ok (.iload_n 1, 1) := by decide +kernel
theorem dL_greatest_4 : decode cL_greatest 4 = .ok (.invokevirtual 46, 3) := by decide +kernel
theorem dL_greatest_7 : decode cL_greatest 7 = .ok (.i2l, 1) := by decide +kernel
theorem dL_greatest_8 : decode cL_greatest 8 = .ok (.lastore, 1) := by decide +kernel
theorem dL_greatest_9 : decode cL_greatest 9 = .ok (.goto 9, 3) := by decide +kernel
theorem dL_greatest_12 : decode cL_greatest 12 = .ok (.astore_n 3, 1) := by decide +kernel
theorem dL_greatest_13 : decode cL_greatest 13 = .ok (.iconst 1, 1) := by decide +kernel
theorem dL_greatest_14 : decode cL_greatest 14 = .ok (.ireturn, 1) := by decide +kernel
theorem dL_greatest_15 : decode cL_greatest 15 = .ok (.astore_n 3, 1) := by decide +kernel
theorem dL_greatest_16 : decode cL_greatest 16 = .ok (.iconst 2, 1) := by decide +kernel
theorem dL_greatest_17 : decode cL_greatest 17 = .ok (.ireturn, 1) := by decide +kernel
theorem dL_greatest_18 : decode cL_greatest 18 = .ok (.iconst 0, 1) := by decide +kernel
theorem dL_greatest_19 : decode cL_greatest 19 = .ok (.ireturn, 1) := by decide +kernel
set_option maxRecDepth 20000 in
theorem ggL_unite_X7_unite : GoodIn wsL_unite wsX7_unite := goodIn_ca (goodIn_ca (goodIn_r _ [6, 7, 8, 9, 5, 10, 11, 12, 13, 14, 15, 16, 17, 18, 19, 20, 21, 22, 23, 24, 25, 26, 27, 28, 29, 30, 31, 32, 33] (by decide +kernel) (by decide +kernel)) (goodIn_sub (fun _ h => List.mem_cons_of_mem _ (List.mem_append_left _ (List.mem_append_right _ h))) (by decide +kernel))) (goodIn_sub (fun _ h => List.mem_cons_of_mem _ (List.mem_append_right _ h)) (by decide +kernel))
set_option maxRecDepth 20000 in
theorem gL_unite_X7_unite : GoodIn wsL_unite (wsV RL 49 RX7 yX7_unite wsX7_unite) := goodIn_app (goodIn_of _ (by decide +kernel)) ggL_unite_X7_unite
theorem dL_unite_0 : decode cL_unite 0 = .ok (.aload_n 3, 1) := by decide +kernel
theorem dL_unite_1 : decode cL_unite 1 = .ok (.iconst 0, 1) := by decide +kernel
theorem dL_unite_2 : decode cL_unite 2 = .ok (.aload_n 0, 1) := by decide +kernel
theorem dL_unite_3 : decode cL_unite 3 = .ok (.iload_n 1, 1) := by decide +kernel
theorem dL_unite_4 : decode cL_unite 4 = .ok (.iload_n 2, 1) := by decide +kernel
theorem dL_unite_5 : decode cL_unite 5 = .ok (.invokevirtual 49, 3) := by decide +kernel
theorem dL_unite_8 : decode cL_unite 8 = .ok (.ifCond .eq 7, 3) := by decide +kernel
theorem dL_unite_11 : decode cL_unite 11 = .ok (.lconst 1, 1) := by decide +kernel
theorem dL_unite_12 : decode cL_unite 12 = .ok (.goto 4, 3) := by decide +kernel
theorem dL_unite_15 : decode cL_unite 15 = .ok (.lconst 0, 1) := by decide +kernel
theorem dL_unite_16 : decode cL_unite 16 = .ok (.lastore, 1) := by decide +kernel
theorem dL_unite_17 : decode cL_unite 17 = .ok (.goto 7, 3) := by decide +kernel
theorem dL_unite_20 : decode cL_unite 20 = .ok (.astore 4, 2) := by decide +kernel
theorem dL_unite_22 : decode cL_unite 22 = .ok (.iconst 1, 1) := by decide +kernel
theorem dL_unite_23 : decode cL_unite 23 = .ok (.ireturn, 1) := by decide +kernel
theorem dL_unite_24 : decode cL_unite 24 = .ok (.iconst 0, 1) := by decide +kernel
theorem dL_unite_25 : decode cL_unite 25 = .ok (.ireturn, 1) := by decide +kernel
set_option maxRecDepth 20000 in
theorem ggL_meet_X7_meet : GoodIn wsL_meet wsX7_meet := goodIn_ca (goodIn_ca (goodIn_r _ [6, 7, 8, 9, 5, 10, 11, 12, 13, 14, 15, 16, 17, 18, 19, 20, 21, 22, 23, 24, 25, 26, 27, 28, 29, 30, 31, 32, 33] (by decide +kernel) (by decide +kernel)) (goodIn_sub (fun _ h => List.mem_cons_of_mem _ (List.mem_append_left _ (List.mem_append_right _ h))) (by decide +kernel))) (goodIn_sub (fun _ h => List.mem_cons_of_mem _ (List.mem_append_right _ h)) (by decide +kernel))
set_option maxRecDepth 20000 in
theorem gL_meet_X7_meet : GoodIn wsL_meet (wsV RL 52 RX7 yX7_meet wsX7_meet) := goodIn_app (goodIn_of _ (by decide +kernel)) ggL_meet_X7_meet
theorem dL_meet_0 : decode cL_meet 0 = .ok (.aload_n 3, 1) := by decide +kernel
theorem dL_meet_1 : decode cL_meet 1 = .ok (.iconst 0, 1) := by decide +kernel
theorem dL_meet_2 : decode cL_meet 2 = .ok (.aload_n 0, 1) := by decide +kernel
theorem dL_meet_3 : decode cL_meet 3 = .ok (.iload_n 1, 1) := by decide +kernel
theorem dL_meet_4 : decode cL_meet 4 = .ok (.iload_n 2, 1) := by decide +kernel
theorem dL_meet_5 : decode cL_meet 5 = .ok (.invokevirtual 52, 3) := by decide +kernel
theorem dL_meet_8 : decode cL_meet 8 = .ok (.ifCond .eq 7, 3) := by decide +kernel
theorem dL_meet_11 : decode cL_meet 11 = .ok (.lconst 1, 1) := by decide +kernel
theorem dL_meet_12 : decode cL_meet 12 = .ok (.goto 4, 3) := by decide +kernel
theorem dL_meet_15 : decode cL_meet 15 = .ok (.lconst 0, 1) := by decide +kernel
theorem dL_meet_16 : decode cL_meet 16 = .ok (.lastore, 1) := by decide +kernel
theorem dL_meet_17 : decode cL_meet 17 = .ok (.goto 7, 3) := by decide +kernel
theorem dL_meet_20 : decode cL_meet 20 = .ok (.astore 4, 2) := by decide +kernel
theorem dL_meet_22 : decode cL_meet 22 = .ok (.iconst 1, 1) := by decide +kernel
theorem dL_meet_23 : decode cL_meet 23 = .ok (.ireturn, 1) := by decide +kernel
theorem dL_meet_24 : decode cL_meet 24 = .ok (.iconst 0, 1) := by decide +kernel
theorem dL_meet_25 : decode cL_meet 25 = .ok (.ireturn, 1) := by decide +kernel
set_option maxRecDepth 20000 in
theorem ggL_without_X7_without : GoodIn wsL_without wsX7_without := goodIn_ca (goodIn_ca (goodIn_r _ [6, 7, 8, 9, 5, 10, 11, 12, 13, 14, 15, 16, 17, 18, 19, 20, 21, 22, 23, 24, 25, 26, 27, 28, 29, 30, 31, 32, 33] (by decide +kernel) (by decide +kernel)) (goodIn_sub (fun _ h => List.mem_cons_of_mem _ (List.mem_append_left _ (List.mem_append_right _ h))) (by decide +kernel))) (goodIn_sub (fun _ h => List.mem_cons_of_mem _ (List.mem_append_right _ h)) (by decide +kernel))
set_option maxRecDepth 20000 in
theorem gL_without_X7_without : GoodIn wsL_without (wsV RL 55 RX7 yX7_without wsX7_without) := goodIn_app (goodIn_of _ (by decide +kernel)) ggL_without_X7_without
theorem dL_without_0 : decode cL_without 0 = .ok (.aload_n 3, 1) := by decide +kernel
theorem dL_without_1 : decode cL_without 1 = .ok (.iconst 0, 1) := by decide +kernel
theorem dL_without_2 : decode cL_without 2 = .ok (.aload_n 0, 1) := by decide +kernel
theorem dL_without_3 : decode cL_without 3 = .ok (.iload_n 1, 1) := by decide +kernel
theorem dL_without_4 : decode cL_without 4 = .ok (.iload_n 2, 1) := by decide +kernel
theorem dL_without_5 : decode cL_without 5 = .ok (.invokevirtual 55, 3) := by decide +kernel
theorem dL_without_8 : decode cL_without 8 = .ok (.ifCond .eq 7, 3) := by decide +kernel
theorem dL_without_11 : decode cL_without 11 = .ok (.lconst 1, 1) := by decide +kernel
theorem dL_without_12 : decode cL_without 12 = .ok (.goto 4, 3) := by decide +kernel
theorem dL_without_15 : decode cL_without 15 = .ok (.lconst 0, 1) := by decide +kernel
theorem dL_without_16 : decode cL_without 16 = .ok (.lastore, 1) := by decide +kernel
theorem dL_without_17 : decode cL_without 17 = .ok (.goto 7, 3) := by decide +kernel
theorem dL_without_20 : decode cL_without 20 = .ok (.astore 4, 2) := by decide +kernel
theorem dL_without_22 : decode cL_without 22 = .ok (.iconst 1, 1) := by decide +kernel
theorem dL_without_23 : decode cL_without 23 = .ok (.ireturn, 1) := by decide +kernel
theorem dL_without_24 : decode cL_without 24 = .ok (.iconst 0, 1) := by decide +kernel
theorem dL_without_25 : decode cL_without 25 = .ok (.ireturn, 1) := by decide +kernel
set_option maxRecDepth 20000 in
theorem ggL_copy_X7_copy : GoodIn wsL_copy wsX7_copy := goodIn_ca (goodIn_r _ [6, 7, 8, 9, 5, 10, 11, 12, 13, 14, 15, 16, 17, 18, 19, 20, 21, 22, 23, 24, 25, 26, 27, 28, 29, 30, 31, 32, 33, 34, 35, 36, 37, 38, 39, 40, 41] (by decide +kernel) (by decide +kernel)) (goodIn_sub (fun _ h => List.mem_cons_of_mem _ (List.mem_append_right _ h)) (by decide +kernel))
set_option maxRecDepth 20000 in
theorem gL_copy_X7_copy : GoodIn wsL_copy (wsV RL 58 RX7 yX7_copy wsX7_copy) := goodIn_app (goodIn_of _ (by decide +kernel)) ggL_copy_X7_copy
theorem dL_copy_0 : decode cL_copy 0 = .ok (.aload_n 3, 1) := by decide +kernel
theorem dL_copy_1 : decode cL_copy 1 = .ok (.iconst 0, 1) := by decide +kernel
theorem dL_copy_2 : decode cL_copy 2 = .ok (.aload_n 0, 1) := by decide +kernel
theorem dL_copy_3 : decode cL_copy 3 = .ok (.iload_n 1, 1) := by decide +kernel
theorem dL_copy_4 : decode cL_copy 4 = .ok (.iload_n 2, 1) := by decide +kernel
theorem dL_copy_5 : decode cL_copy 5 = .ok (.invokevirtual 58, 3) := by decide +kernel
theorem dL_copy_8 : decode cL_copy 8 = .ok (.i2l, 1) := by decide +kernel
theorem dL_copy_9 : decode cL_copy 9 = .ok (.lastore, 1) := by decide +kernel
theorem dL_copy_10 : decode cL_copy 10 = .ok (.goto 7, 3) := by decide +kernel
theorem dL_copy_13 : decode cL_copy 13 = .ok (.astore 4, 2) := by decide +kernel
theorem dL_copy_15 : decode cL_copy 15 = .ok (.iconst 1, 1) := by decide +kernel
theorem dL_copy_16 : decode cL_copy 16 = .ok (.ireturn, 1) := by decide +kernel
theorem dL_copy_17 : decode cL_copy 17 = .ok (.iconst 0, 1) := by decide +kernel
theorem dL_copy_18 : decode cL_copy 18 = .ok (.ireturn, 1) := by decide +kernel
set_option maxRecDepth 20000 in
theorem ggL_sieve_X7_sieve : GoodIn wsL_sieve wsX7_sieve := goodIn_ca (goodIn_ca (goodIn_r _ [6, 7, 8, 9, 5, 10, 11, 12, 13, 14, 15, 16, 17, 18, 19, 20, 21, 22, 23, 24, 25, 26, 27, 28, 29, 30, 31, 32, 33, 34, 35, 36, 37, 38, 39, 40, 41, 42, 43, 44, 45, 46, 47, 48, 49, 50, 51, 52, 53, 54, 55, 56, 57, 58] (by decide +kernel) (by decide +kernel)) (goodIn_sub (fun _ h => List.mem_cons_of_mem _ (List.mem_append_left _ (List.mem_append_right _ h))) (by decide +kernel))) (goodIn_sub (fun _ h => List.mem_cons_of_mem _ (List.mem_append_right _ h)) (by decide +kernel))
set_option maxRecDepth 20000 in
theorem gL_sieve_X7_sieve : GoodIn wsL_sieve (wsV RL 61 RX7 yX7_sieve wsX7_sieve) := goodIn_app (goodIn_of _ (by decide +kernel)) ggL_sieve_X7_sieve
theorem dL_sieve_0 : decode cL_sieve 0 = .ok (.aload 4, 2) := by decide +kernel
theorem dL_sieve_2 : decode cL_sieve 2 = .ok (.iconst 0, 1) := by decide +kernel
theorem dL_sieve_3 : decode cL_sieve 3 = .ok (.aload_n 0, 1) := by decide +kernel
theorem dL_sieve_4 : decode cL_sieve 4 = .ok (.iload_n 1, 1) := by decide +kernel
theorem dL_sieve_5 : decode cL_sieve 5 = .ok (.iload_n 2, 1) := by decide +kernel
theorem dL_sieve_6 : decode cL_sieve 6 = .ok (.iload_n 3, 1) := by decide +kernel
theorem dL_sieve_7 : decode cL_sieve 7 = .ok (.invokevirtual 61, 3) := by decide +kernel
theorem dL_sieve_10 : decode cL_sieve 10 = .ok (.i2l, 1) := by decide +kernel
theorem dL_sieve_11 : decode cL_sieve 11 = .ok (.lastore, 1) := by decide +kernel
theorem dL_sieve_12 : decode cL_sieve 12 = .ok (.goto 11, 3) := by decide +kernel
theorem dL_sieve_15 : decode cL_sieve 15 = .ok (.astore 5, 2) := by decide +kernel
theorem dL_sieve_17 : decode cL_sieve 17 = .ok (.iconst 1, 1) := by decide +kernel
theorem dL_sieve_18 : decode cL_sieve 18 = .ok (.ireturn, 1) := by decide +kernel
theorem dL_sieve_19 : decode cL_sieve 19 = .ok (.astore 5, 2) := by decide +kernel
theorem dL_sieve_21 : decode cL_sieve 21 = .ok (.iconst 2, 1) := by decide +kernel
theorem dL_sieve_22 : decode cL_sieve 22 = .ok (.ireturn, 1) := by decide +kernel
theorem dL_sieve_23 : decode cL_sieve 23 = .ok (.iconst 0, 1) := by decide +kernel
theorem dL_sieve_24 : decode cL_sieve 24 = .ok (.ireturn, 1) := by decide +kernel
set_option maxRecDepth 20000 in
theorem ggL_isWithin_X7_isWithin : GoodIn wsL_isWithin wsX7_isWithin := goodIn_ca (goodIn_ca (goodIn_r _ [6, 7, 8, 9, 5, 10, 11, 12, 13, 14, 15, 16, 17, 18, 19, 20, 21, 22, 23, 24, 25, 26, 27, 28, 29, 30, 31, 32, 33] (by decide +kernel) (by decide +kernel)) (goodIn_sub (fun _ h => List.mem_cons_of_mem _ (List.mem_append_left _ (List.mem_append_right _ h))) (by decide +kernel))) (goodIn_sub (fun _ h => List.mem_cons_of_mem _ (List.mem_append_right _ h)) (by decide +kernel))
set_option maxRecDepth 20000 in
theorem gL_isWithin_X7_isWithin : GoodIn wsL_isWithin (wsV RL 65 RX7 yX7_isWithin wsX7_isWithin) := goodIn_app (goodIn_of _ (by decide +kernel)) ggL_isWithin_X7_isWithin
theorem dL_isWithin_0 : decode cL_isWithin 0 = .ok (.aload_n 3, 1) := by decide +kernel
theorem dL_isWithin_1 : decode cL_isWithin 1 = .ok (.iconst 0, 1) := by decide +kernel
theorem dL_isWithin_2 : decode cL_isWithin 2 = .ok (.aload_n 0, 1) := by decide +kernel
theorem dL_isWithin_3 : decode cL_isWithin 3 = .ok (.iload_n 1, 1) := by decide +kernel
theorem dL_isWithin_4 : decode cL_isWithin 4 = .ok (.iload_n 2, 1) := by decide +kernel
theorem dL_isWithin_5 : decode cL_isWithin 5 = .ok (.invokevirtual 65, 3) := by decide +kernel
theorem dL_isWithin_8 : decode cL_isWithin 8 = .ok (.ifCond .eq 7, 3) := by decide +kernel
theorem dL_isWithin_11 : decode cL_isWithin 11 = .ok (.lconst 1, 1) := by decide +kernel
theorem dL_isWithin_12 : decode cL_isWithin 12 = .ok (.goto 4, 3) := by decide +kernel
theorem dL_isWithin_15 : decode cL_isWithin 15 = .ok (.lconst 0, 1) := by decide +kernel
theorem dL_isWithin_16 : decode cL_isWithin 16 = .ok (.lastore, 1) := by decide +kernel
theorem dL_isWithin_17 : decode cL_isWithin 17 = .ok (.goto 7, 3) := by decide +kernel
theorem dL_isWithin_20 : decode cL_isWithin 20 = .ok (.astore 4, 2) := by decide +kernel
theorem dL_isWithin_22 : decode cL_isWithin 22 = .ok (.iconst 1, 1) := by decide +kernel
theorem dL_isWithin_23 : decode cL_isWithin 23 = .ok (.ireturn, 1) := by decide +kernel
theorem dL_isWithin_24 : decode cL_isWithin 24 = .ok (.iconst 0, 1) := by decide +kernel
theorem dL_isWithin_25 : decode cL_isWithin 25 = .ok (.ireturn, 1) := by decide +kernel
set_option maxRecDepth 20000 in
theorem ggL_isApart_X7_isApart : GoodIn wsL_isApart wsX7_isApart := goodIn_ca (goodIn_r _ [6, 7, 8, 9, 5, 10, 11, 12, 13, 14, 15, 16, 17, 18, 19, 20, 21, 22, 23, 24, 25, 26, 27, 28, 29, 30] (by decide +kernel) (by decide +kernel)) (goodIn_sub (fun _ h => List.mem_cons_of_mem _ (List.mem_append_right _ h)) (by decide +kernel))
set_option maxRecDepth 20000 in
theorem gL_isApart_X7_isApart : GoodIn wsL_isApart (wsV RL 68 RX7 yX7_isApart wsX7_isApart) := goodIn_app (goodIn_of _ (by decide +kernel)) ggL_isApart_X7_isApart
theorem dL_isApart_0 : decode cL_isApart 0 = .ok (.aload_n 3, 1) := by decide +kernel
theorem dL_isApart_1 : decode cL_isApart 1 = .ok (.iconst 0, 1) := by decide +kernel
theorem dL_isApart_2 : decode cL_isApart 2 = .ok (.aload_n 0, 1) := by decide +kernel
theorem dL_isApart_3 : decode cL_isApart 3 = .ok (.iload_n 1, 1) := by decide +kernel
theorem dL_isApart_4 : decode cL_isApart 4 = .ok (.iload_n 2, 1) := by decide +kernel
theorem dL_isApart_5 : decode cL_isApart 5 = .ok (.invokevirtual 68, 3) := by decide +kernel
theorem dL_isApart_8 : decode cL_isApart 8 = .ok (.ifCond .eq 7, 3) := by decide +kernel
theorem dL_isApart_11 : decode cL_isApart 11 = .ok (.lconst 1, 1) := by decide +kernel
theorem dL_isApart_12 : decode cL_isApart 12 = .ok (.goto 4, 3) := by decide +kernel
theorem dL_isApart_15 : decode cL_isApart 15 = .ok (.lconst 0, 1) := by decide +kernel
theorem dL_isApart_16 : decode cL_isApart 16 = .ok (.lastore, 1) := by decide +kernel
theorem dL_isApart_17 : decode cL_isApart 17 = .ok (.goto 7, 3) := by decide +kernel
theorem dL_isApart_20 : decode cL_isApart 20 = .ok (.astore 4, 2) := by decide +kernel
theorem dL_isApart_22 : decode cL_isApart 22 = .ok (.iconst 1, 1) := by decide +kernel
theorem dL_isApart_23 : decode cL_isApart 23 = .ok (.ireturn, 1) := by decide +kernel
theorem dL_isApart_24 : decode cL_isApart 24 = .ok (.iconst 0, 1) := by decide +kernel
theorem dL_isApart_25 : decode cL_isApart 25 = .ok (.ireturn, 1) := by decide +kernel
set_option maxRecDepth 20000 in
theorem ggL_isSame_X7_isSame : GoodIn wsL_isSame wsX7_isSame := goodIn_ca (goodIn_r _ [6, 7, 8, 9, 5, 10, 11, 12, 13, 14, 15, 16, 17, 18, 19, 20, 21, 22, 23, 24, 25, 26, 27, 28, 29, 30] (by decide +kernel) (by decide +kernel)) (goodIn_sub (fun _ h => List.mem_cons_of_mem _ (List.mem_append_right _ h)) (by decide +kernel))
set_option maxRecDepth 20000 in
theorem gL_isSame_X7_isSame : GoodIn wsL_isSame (wsV RL 71 RX7 yX7_isSame wsX7_isSame) := goodIn_app (goodIn_of _ (by decide +kernel)) ggL_isSame_X7_isSame
theorem dL_isSame_0 : decode cL_isSame 0 = .ok (.aload_n 3, 1) := by decide +kernel
theorem dL_isSame_1 : decode cL_isSame 1 = .ok (.iconst 0, 1) := by decide +kernel
theorem dL_isSame_2 : decode cL_isSame 2 = .ok (.aload_n 0, 1) := by decide +kernel
theorem dL_isSame_3 : decode cL_isSame 3 = .ok (.iload_n 1, 1) := by decide +kernel
theorem dL_isSame_4 : decode cL_isSame 4 = .ok (.iload_n 2, 1) := by decide +kernel
theorem dL_isSame_5 : decode cL_isSame 5 = .ok (.invokevirtual 71, 3) := by decide +kernel
theorem dL_isSame_8 : decode cL_isSame 8 = .ok (.ifCond .eq 7, 3) := by decide +kernel
theorem dL_isSame_11 : decode cL_isSame 11 = .ok (.lconst 1, 1) := by decide +kernel
theorem dL_isSame_12 : decode cL_isSame 12 = .ok (.goto 4, 3) := by decide +kernel
theorem dL_isSame_15 : decode cL_isSame 15 = .ok (.lconst 0, 1) := by decide +kernel
theorem dL_isSame_16 : decode cL_isSame 16 = .ok (.lastore, 1) := by decide +kernel
theorem dL_isSame_17 : decode cL_isSame 17 = .ok (.goto 7, 3) := by decide +kernel
theorem dL_isSame_20 : decode cL_isSame 20 = .ok (.astore 4, 2) := by decide +kernel
theorem dL_isSame_22 : decode cL_isSame 22 = .ok (.iconst 1, 1) := by decide +kernel
theorem dL_isSame_23 : decode cL_isSame 23 = .ok (.ireturn, 1) := by decide +kernel
theorem dL_isSame_24 : decode cL_isSame 24 = .ok (.iconst 0, 1) := by decide +kernel
theorem dL_isSame_25 : decode cL_isSame 25 = .ok (.ireturn, 1) := by decide +kernel
set_option maxRecDepth 20000 in
theorem ggL_vote_X7_vote : GoodIn wsL_vote wsX7_vote := goodIn_ca (goodIn_r _ [6, 7, 8, 5, 9, 10, 11, 12, 13, 14, 15, 16, 17, 18, 19, 20, 21, 22, 23, 24, 25, 26, 27, 28, 29, 30, 31, 32, 33, 34, 35, 36] (by decide +kernel) (by decide +kernel)) (goodIn_sub (fun _ h => List.mem_cons_of_mem _ (List.mem_append_right _ h)) (by decide +kernel))
set_option maxRecDepth 20000 in
theorem gL_vote_X7_vote : GoodIn wsL_vote (wsV RL 74 RX7 yX7_vote wsX7_vote) := goodIn_app (goodIn_of _ (by decide +kernel)) ggL_vote_X7_vote
theorem dL_vote_0 : decode cL_vote 0 = .ok (.aload_n 2, 1) := by decide +kernel
theorem dL_vote_1 : decode cL_vote 1 = .ok (.iconst 0, 1) := by decide +kernel
theorem dL_vote_2 : decode cL_vote 2 = .ok (.aload_n 0, 1) := by decide +kernel
theorem dL_vote_3 : decode cL_vote 3 = .ok (.iload_n 1, 1) := by decide +kernel
theorem dL_vote_4 : decode cL_vote 4 = .ok (.invokevirtual 74, 3) := by decide +kernel
theorem dL_vote_7 : decode cL_vote 7 = .ok (.i2l, 1) := by decide +kernel
theorem dL_vote_8 : decode cL_vote 8 = .ok (.lastore, 1) := by decide +kernel
theorem dL_vote_9 : decode cL_vote 9 = .ok (.goto 6, 3) := by decide +kernel
theorem dL_vote_12 : decode cL_vote 12 = .ok (.astore_n 3, 1) := by decide +kernel
theorem dL_vote_13 : decode cL_vote 13 = .ok (.iconst 1, 1) := by decide +kernel
theorem dL_vote_14 : decode cL_vote 14 = .ok (.ireturn, 1) := by decide +kernel
theorem dL_vote_15 : decode cL_vote 15 = .ok (.iconst 0, 1) := by decide +kernel
theorem dL_vote_16 : decode cL_vote 16 = .ok (.ireturn, 1) := by decide +kernel
set_option maxRecDepth 20000 in
theorem ggL_elect_X7_elect : GoodIn wsL_elect wsX7_elect := goodIn_ca (goodIn_ca (goodIn_r _ [6, 7, 8, 9, 10, 5, 11, 12, 13, 14, 15, 16, 17, 18, 19, 20, 21, 22, 23, 24, 25, 26, 27, 28, 29, 30, 31, 32, 33, 34, 35, 36, 37, 38, 39, 40, 41, 42, 43, 44, 45, 46, 47, 48, 49, 50, 51, 52, 53, 54, 55, 56, 57, 58, 59, 60, 61, 62, 63, 64, 65, 66, 67, 68] (by decide +kernel) (by decide +kernel)) (goodIn_sub (fun _ h => List.mem_cons_of_mem _ (List.mem_append_left _ (List.mem_append_right _ h))) (by decide +kernel))) (goodIn_sub (fun _ h => List.mem_cons_of_mem _ (List.mem_append_right _ h)) (by decide +kernel))
set_option maxRecDepth 20000 in
theorem gL_elect_X7_elect : GoodIn wsL_elect (wsV RL 77 RX7 yX7_elect wsX7_elect) := goodIn_app (goodIn_of _ (by decide +kernel)) ggL_elect_X7_elect
theorem dL_elect_0 : decode cL_elect 0 = .ok (.aload_n 3, 1) := by decide +kernel
theorem dL_elect_1 : decode cL_elect 1 = .ok (.iconst 0, 1) := by decide +kernel
theorem dL_elect_2 : decode cL_elect 2 = .ok (.aload_n 0, 1) := by decide +kernel
theorem dL_elect_3 : decode cL_elect 3 = .ok (.iload_n 1, 1) := by decide +kernel
theorem dL_elect_4 : decode cL_elect 4 = .ok (.iload_n 2, 1) := by decide +kernel
theorem dL_elect_5 : decode cL_elect 5 = .ok (.invokevirtual 77, 3) := by decide +kernel
theorem dL_elect_8 : decode cL_elect 8 = .ok (.i2l, 1) := by decide +kernel
theorem dL_elect_9 : decode cL_elect 9 = .ok (.lastore, 1) := by decide +kernel
theorem dL_elect_10 : decode cL_elect 10 = .ok (.goto 11, 3) := by decide +kernel
theorem dL_elect_13 : decode cL_elect 13 = .ok (.astore 4, 2) := by decide +kernel
theorem dL_elect_15 : decode cL_elect 15 = .ok (.iconst 1, 1) := by decide +kernel
theorem dL_elect_16 : decode cL_elect 16 = .ok (.ireturn, 1) := by decide +kernel
theorem dL_elect_17 : decode cL_elect 17 = .ok (.astore 4, 2) := by decide +kernel
theorem dL_elect_19 : decode cL_elect 19 = .ok (.iconst 2, 1) := by decide +kernel
theorem dL_elect_20 : decode cL_elect 20 = .ok (.ireturn, 1) := by decide +kernel
theorem dL_elect_21 : decode cL_elect 21 = .ok (.iconst 0, 1) := by decide +kernel
theorem dL_elect_22 : decode cL_elect 22 = .ok (.ireturn, 1) := by decide +kernel
set_option maxRecDepth 20000 in
theorem ggL_keep_X7_keep : GoodIn wsL_keep wsX7_keep := goodIn_ca (goodIn_ca (goodIn_r _ [6, 7, 8, 9, 10, 11, 12, 5, 13, 14, 15, 16, 17, 18, 19, 20, 21, 22, 23, 24, 25, 26, 27, 28, 29, 30, 31, 32, 33, 34, 35, 36, 37, 38, 39, 40, 41, 42, 43, 44, 45, 46, 47, 48, 49, 50, 51, 52, 53, 54, 55, 56] (by decide +kernel) (by decide +kernel)) (goodIn_sub (fun _ h => List.mem_cons_of_mem _ (List.mem_append_left _ (List.mem_append_right _ h))) (by decide +kernel))) (goodIn_sub (fun _ h => List.mem_cons_of_mem _ (List.mem_append_right _ h)) (by decide +kernel))
set_option maxRecDepth 20000 in
theorem gL_keep_X7_keep : GoodIn wsL_keep (wsV RL 80 RX7 yX7_keep wsX7_keep) := goodIn_app (goodIn_of _ (by decide +kernel)) ggL_keep_X7_keep
theorem dL_keep_0 : decode cL_keep 0 = .ok (.aload_n 2, 1) := by decide +kernel
theorem dL_keep_1 : decode cL_keep 1 = .ok (.iconst 0, 1) := by decide +kernel
theorem dL_keep_2 : decode cL_keep 2 = .ok (.aload_n 0, 1) := by decide +kernel
theorem dL_keep_3 : decode cL_keep 3 = .ok (.iload_n 1, 1) := by decide +kernel
theorem dL_keep_4 : decode cL_keep 4 = .ok (.invokevirtual 80, 3) := by decide +kernel
theorem dL_keep_7 : decode cL_keep 7 = .ok (.ifCond .eq 7, 3) := by decide +kernel
theorem dL_keep_10 : decode cL_keep 10 = .ok (.lconst 1, 1) := by decide +kernel
theorem dL_keep_11 : decode cL_keep 11 = .ok (.goto 4, 3) := by decide +kernel
theorem dL_keep_14 : decode cL_keep 14 = .ok (.lconst 0, 1) := by decide +kernel
theorem dL_keep_15 : decode cL_keep 15 = .ok (.lastore, 1) := by decide +kernel
theorem dL_keep_16 : decode cL_keep 16 = .ok (.goto 9, 3) := by decide +kernel
theorem dL_keep_19 : decode cL_keep 19 = .ok (.astore_n 3, 1) := by decide +kernel
theorem dL_keep_20 : decode cL_keep 20 = .ok (.iconst 1, 1) := by decide +kernel
theorem dL_keep_21 : decode cL_keep 21 = .ok (.ireturn, 1) := by decide +kernel
theorem dL_keep_22 : decode cL_keep 22 = .ok (.astore_n 3, 1) := by decide +kernel
theorem dL_keep_23 : decode cL_keep 23 = .ok (.iconst 2, 1) := by decide +kernel
theorem dL_keep_24 : decode cL_keep 24 = .ok (.ireturn, 1) := by decide +kernel
theorem dL_keep_25 : decode cL_keep 25 = .ok (.iconst 0, 1) := by decide +kernel
theorem dL_keep_26 : decode cL_keep 26 = .ok (.ireturn, 1) := by decide +kernel
set_option maxRecDepth 20000 in
theorem ggL_drop_X7_drop : GoodIn wsL_drop wsX7_drop := goodIn_ca (goodIn_r _ [6, 7, 8, 9, 10, 5, 11, 12, 13, 14, 15, 16, 17, 18, 19, 20, 21, 22, 23, 24, 25, 26, 27, 28, 29, 30, 31, 32, 33, 34, 35, 36, 37, 38, 39, 40, 41, 42, 43, 44, 45, 46, 47, 48, 49] (by decide +kernel) (by decide +kernel)) (goodIn_sub (fun _ h => List.mem_cons_of_mem _ (List.mem_append_right _ h)) (by decide +kernel))
set_option maxRecDepth 20000 in
theorem gL_drop_X7_drop : GoodIn wsL_drop (wsV RL 86 RX7 yX7_drop wsX7_drop) := goodIn_app (goodIn_of _ (by decide +kernel)) ggL_drop_X7_drop
theorem dL_drop_0 : decode cL_drop 0 = .ok (.aload_n 2, 1) := by decide +kernel
theorem dL_drop_1 : decode cL_drop 1 = .ok (.iconst 0, 1) := by decide +kernel
theorem dL_drop_2 : decode cL_drop 2 = .ok (.aload_n 0, 1) := by decide +kernel
theorem dL_drop_3 : decode cL_drop 3 = .ok (.iload_n 1, 1) := by decide +kernel
theorem dL_drop_4 : decode cL_drop 4 = .ok (.invokevirtual 86, 3) := by decide +kernel
theorem dL_drop_7 : decode cL_drop 7 = .ok (.ifCond .eq 7, 3) := by decide +kernel
theorem dL_drop_10 : decode cL_drop 10 = .ok (.lconst 1, 1) := by decide +kernel
theorem dL_drop_11 : decode cL_drop 11 = .ok (.goto 4, 3) := by decide +kernel
theorem dL_drop_14 : decode cL_drop 14 = .ok (.lconst 0, 1) := by decide +kernel
theorem dL_drop_15 : decode cL_drop 15 = .ok (.lastore, 1) := by decide +kernel
theorem dL_drop_16 : decode cL_drop 16 = .ok (.goto 6, 3) := by decide +kernel
theorem dL_drop_19 : decode cL_drop 19 = .ok (.astore_n 3, 1) := by decide +kernel
theorem dL_drop_20 : decode cL_drop 20 = .ok (.iconst 1, 1) := by decide +kernel
theorem dL_drop_21 : decode cL_drop 21 = .ok (.ireturn, 1) := by decide +kernel
theorem dL_drop_22 : decode cL_drop 22 = .ok (.iconst 0, 1) := by decide +kernel
theorem dL_drop_23 : decode cL_drop 23 = .ok (.ireturn, 1) := by decide +kernel
set_option maxRecDepth 20000 in
theorem ggL_isKept_X7_isKept : GoodIn wsL_isKept wsX7_isKept := goodIn_ca (goodIn_r _ [6, 7, 8, 9, 10, 5, 11, 12, 13, 14, 15, 16, 17, 18, 19, 20, 21, 22, 23, 24, 25, 26, 27, 28, 29, 30, 31, 32, 33, 34, 35, 36, 37, 38, 39, 40, 41] (by decide +kernel) (by decide +kernel)) (goodIn_sub (fun _ h => List.mem_cons_of_mem _ (List.mem_append_right _ h)) (by decide +kernel))
set_option maxRecDepth 20000 in
theorem gL_isKept_X7_isKept : GoodIn wsL_isKept (wsV RL 89 RX7 yX7_isKept wsX7_isKept) := goodIn_app (goodIn_of _ (by decide +kernel)) ggL_isKept_X7_isKept
theorem dL_isKept_0 : decode cL_isKept 0 = .ok (.aload_n 2, 1) := by decide +kernel
theorem dL_isKept_1 : decode cL_isKept 1 = .ok (.iconst 0, 1) := by decide +kernel
theorem dL_isKept_2 : decode cL_isKept 2 = .ok (.aload_n 0, 1) := by decide +kernel
theorem dL_isKept_3 : decode cL_isKept 3 = .ok (.iload_n 1, 1) := by decide +kernel
theorem dL_isKept_4 : decode cL_isKept 4 = .ok (.invokevirtual 89, 3) := by decide +kernel
theorem dL_isKept_7 : decode cL_isKept 7 = .ok (.ifCond .eq 7, 3) := by decide +kernel
theorem dL_isKept_10 : decode cL_isKept 10 = .ok (.lconst 1, 1) := by decide +kernel
theorem dL_isKept_11 : decode cL_isKept 11 = .ok (.goto 4, 3) := by decide +kernel
theorem dL_isKept_14 : decode cL_isKept 14 = .ok (.lconst 0, 1) := by decide +kernel
theorem dL_isKept_15 : decode cL_isKept 15 = .ok (.lastore, 1) := by decide +kernel
theorem dL_isKept_16 : decode cL_isKept 16 = .ok (.goto 6, 3) := by decide +kernel
theorem dL_isKept_19 : decode cL_isKept 19 = .ok (.astore_n 3, 1) := by decide +kernel
theorem dL_isKept_20 : decode cL_isKept 20 = .ok (.iconst 1, 1) := by decide +kernel
theorem dL_isKept_21 : decode cL_isKept 21 = .ok (.ireturn, 1) := by decide +kernel
theorem dL_isKept_22 : decode cL_isKept 22 = .ok (.iconst 0, 1) := by decide +kernel
theorem dL_isKept_23 : decode cL_isKept 23 = .ok (.ireturn, 1) := by decide +kernel
set_option maxRecDepth 20000 in
theorem ggL_placeOf_X7_placeOf : GoodIn wsL_placeOf wsX7_placeOf := goodIn_ca (goodIn_r _ [6, 7, 8, 9, 10, 5, 11, 12, 13, 14, 15, 16, 17, 18, 19, 20, 21, 22, 23, 24, 25, 26, 27, 28, 29, 30, 31, 32, 33, 34, 35, 36, 37, 38, 39, 40, 41] (by decide +kernel) (by decide +kernel)) (goodIn_sub (fun _ h => List.mem_cons_of_mem _ (List.mem_append_right _ h)) (by decide +kernel))
set_option maxRecDepth 20000 in
theorem gL_placeOf_X7_placeOf : GoodIn wsL_placeOf (wsV RL 92 RX7 yX7_placeOf wsX7_placeOf) := goodIn_app (goodIn_of _ (by decide +kernel)) ggL_placeOf_X7_placeOf
theorem dL_placeOf_0 : decode cL_placeOf 0 = .ok (.aload_n 2, 1) := by decide +kernel
theorem dL_placeOf_1 : decode cL_placeOf 1 = .ok (.iconst 0, 1) := by decide +kernel
theorem dL_placeOf_2 : decode cL_placeOf 2 = .ok (.aload_n 0, 1) := by decide +kernel
theorem dL_placeOf_3 : decode cL_placeOf 3 = .ok (.iload_n 1, 1) := by decide +kernel
theorem dL_placeOf_4 : decode cL_placeOf 4 = .ok (.invokevirtual 92, 3) := by decide +kernel
theorem dL_placeOf_7 : decode cL_placeOf 7 = .ok (.i2l, 1) := by decide +kernel
theorem dL_placeOf_8 : decode cL_placeOf 8 = .ok (.lastore, 1) := by decide +kernel
theorem dL_placeOf_9 : decode cL_placeOf 9 = .ok (.goto 6, 3) := by decide +kernel
theorem dL_placeOf_12 : decode cL_placeOf 12 = .ok (.astore_n 3, 1) := by decide +kernel
theorem dL_placeOf_13 : decode cL_placeOf 13 = .ok (.iconst 1, 1) := by decide +kernel
theorem dL_placeOf_14 : decode cL_placeOf 14 = .ok (.ireturn, 1) := by decide +kernel
theorem dL_placeOf_15 : decode cL_placeOf 15 = .ok (.iconst 0, 1) := by decide +kernel
theorem dL_placeOf_16 : decode cL_placeOf 16 = .ok (.ireturn, 1) := by decide +kernel
set_option maxRecDepth 20000 in
theorem ggL_take_X7_take : GoodIn wsL_take wsX7_take := goodIn_ca (goodIn_ca (goodIn_r _ [6, 7, 8, 9, 10, 11, 12, 5, 13, 14, 15, 16, 17, 18, 19, 20, 21, 22, 23, 24, 25, 26, 27, 28, 29, 30, 31, 32, 33, 34, 35, 36, 37, 38, 39, 40, 41, 42, 43, 44, 45, 46, 47, 48, 49, 50, 51, 52, 53, 54, 55, 56, 57, 58, 59] (by decide +kernel) (by decide +kernel)) (goodIn_sub (fun _ h => List.mem_cons_of_mem _ (List.mem_append_left _ (List.mem_append_right _ h))) (by decide +kernel))) (goodIn_sub (fun _ h => List.mem_cons_of_mem _ (List.mem_append_right _ h)) (by decide +kernel))
set_option maxRecDepth 20000 in
theorem gL_take_X7_take : GoodIn wsL_take (wsV RL 95 RX7 yX7_take wsX7_take) := goodIn_app (goodIn_of _ (by decide +kernel)) ggL_take_X7_take
theorem dL_take_0 : decode cL_take 0 = .ok (.aload_n 3, 1) := by decide +kernel
theorem dL_take_1 : decode cL_take 1 = .ok (.iconst 0, 1) := by decide +kernel
theorem dL_take_2 : decode cL_take 2 = .ok (.aload_n 0, 1) := by decide +kernel
theorem dL_take_3 : decode cL_take 3 = .ok (.iload_n 1, 1) := by decide +kernel
theorem dL_take_4 : decode cL_take 4 = .ok (.iload_n 2, 1) := by decide +kernel
theorem dL_take_5 : decode cL_take 5 = .ok (.invokevirtual 95, 3) := by decide +kernel
theorem dL_take_8 : decode cL_take 8 = .ok (.i2l, 1) := by decide +kernel
theorem dL_take_9 : decode cL_take 9 = .ok (.lastore, 1) := by decide +kernel
theorem dL_take_10 : decode cL_take 10 = .ok (.goto 11, 3) := by decide +kernel
theorem dL_take_13 : decode cL_take 13 = .ok (.astore 4, 2) := by decide +kernel
theorem dL_take_15 : decode cL_take 15 = .ok (.iconst 1, 1) := by decide +kernel
theorem dL_take_16 : decode cL_take 16 = .ok (.ireturn, 1) := by decide +kernel
theorem dL_take_17 : decode cL_take 17 = .ok (.astore 4, 2) := by decide +kernel
theorem dL_take_19 : decode cL_take 19 = .ok (.iconst 2, 1) := by decide +kernel
theorem dL_take_20 : decode cL_take 20 = .ok (.ireturn, 1) := by decide +kernel
theorem dL_take_21 : decode cL_take 21 = .ok (.iconst 0, 1) := by decide +kernel
theorem dL_take_22 : decode cL_take 22 = .ok (.ireturn, 1) := by decide +kernel
set_option maxRecDepth 20000 in
theorem ggL_spread_X7_spread : GoodIn wsL_spread wsX7_spread := goodIn_ca (goodIn_ca (goodIn_r _ [6, 7, 8, 9, 10, 5, 11, 12, 13, 14, 15, 16, 17, 18, 19, 20, 21, 22, 23, 24, 25, 26, 27, 28, 29, 30, 31, 32, 33, 34, 35, 36, 37, 38, 39, 40, 41, 42, 43, 44, 45, 46, 47, 48, 49, 50, 51, 52, 53, 54, 55, 56, 57, 58, 59, 60, 61, 62, 63, 64, 65, 66, 67, 68, 69, 70, 71, 72, 73, 74, 75] (by decide +kernel) (by decide +kernel)) (goodIn_sub (fun _ h => List.mem_cons_of_mem _ (List.mem_append_left _ (List.mem_append_right _ h))) (by decide +kernel))) (goodIn_sub (fun _ h => List.mem_cons_of_mem _ (List.mem_append_right _ h)) (by decide +kernel))
set_option maxRecDepth 20000 in
theorem gL_spread_X7_spread : GoodIn wsL_spread (wsV RL 98 RX7 yX7_spread wsX7_spread) := goodIn_app (goodIn_of _ (by decide +kernel)) ggL_spread_X7_spread
theorem dL_spread_0 : decode cL_spread 0 = .ok (.aload_n 2, 1) := by decide +kernel
theorem dL_spread_1 : decode cL_spread 1 = .ok (.iconst 0, 1) := by decide +kernel
theorem dL_spread_2 : decode cL_spread 2 = .ok (.aload_n 0, 1) := by decide +kernel
theorem dL_spread_3 : decode cL_spread 3 = .ok (.iload_n 1, 1) := by decide +kernel
theorem dL_spread_4 : decode cL_spread 4 = .ok (.invokevirtual 98, 3) := by decide +kernel
theorem dL_spread_7 : decode cL_spread 7 = .ok (.i2l, 1) := by decide +kernel
theorem dL_spread_8 : decode cL_spread 8 = .ok (.lastore, 1) := by decide +kernel
theorem dL_spread_9 : decode cL_spread 9 = .ok (.goto 6, 3) := by decide +kernel
theorem dL_spread_12 : decode cL_spread 12 = .ok (.astore_n 3, 1) := by decide +kernel
theorem dL_spread_13 : decode cL_spread 13 = .ok (.iconst 1, 1) := by decide +kernel
theorem dL_spread_14 : decode cL_spread 14 = .ok (.ireturn, 1) := by decide +kernel
theorem dL_spread_15 : decode cL_spread 15 = .ok (.iconst 0, 1) := by decide +kernel
theorem dL_spread_16 : decode cL_spread 16 = .ok (.ireturn, 1) := by decide +kernel
set_option maxRecDepth 20000 in
theorem ggL_isClosed_X7_isClosed : GoodIn wsL_isClosed wsX7_isClosed := goodIn_ca (goodIn_ca (goodIn_r _ [6, 7, 8, 9, 5, 10, 11, 12, 13, 14, 15, 16, 17, 18, 19, 20, 21, 22, 23, 24, 25, 26, 27, 28, 29, 30, 31, 32, 33, 34, 35, 36, 37, 38, 39, 40, 41, 42, 43, 44, 45, 46, 47, 48, 49, 50, 51, 52, 53, 54, 55, 56, 57, 58] (by decide +kernel) (by decide +kernel)) (goodIn_sub (fun _ h => List.mem_cons_of_mem _ (List.mem_append_left _ (List.mem_append_right _ h))) (by decide +kernel))) (goodIn_sub (fun _ h => List.mem_cons_of_mem _ (List.mem_append_right _ h)) (by decide +kernel))
set_option maxRecDepth 20000 in
theorem gL_isClosed_X7_isClosed : GoodIn wsL_isClosed (wsV RL 101 RX7 yX7_isClosed wsX7_isClosed) := goodIn_app (goodIn_of _ (by decide +kernel)) ggL_isClosed_X7_isClosed
theorem dL_isClosed_0 : decode cL_isClosed 0 = .ok (.aload_n 2, 1) := by decide +kernel
theorem dL_isClosed_1 : decode cL_isClosed 1 = .ok (.iconst 0, 1) := by decide +kernel
theorem dL_isClosed_2 : decode cL_isClosed 2 = .ok (.aload_n 0, 1) := by decide +kernel
theorem dL_isClosed_3 : decode cL_isClosed 3 = .ok (.iload_n 1, 1) := by decide +kernel
theorem dL_isClosed_4 : decode cL_isClosed 4 = .ok (.invokevirtual 101, 3) := by decide +kernel
theorem dL_isClosed_7 : decode cL_isClosed 7 = .ok (.ifCond .eq 7, 3) := by decide +kernel
theorem dL_isClosed_10 : decode cL_isClosed 10 = .ok (.lconst 1, 1) := by decide +kernel
theorem dL_isClosed_11 : decode cL_isClosed 11 = .ok (.goto 4, 3) := by decide +kernel
theorem dL_isClosed_14 : decode cL_isClosed 14 = .ok (.lconst 0, 1) := by decide +kernel
theorem dL_isClosed_15 : decode cL_isClosed 15 = .ok (.lastore, 1) := by decide +kernel
theorem dL_isClosed_16 : decode cL_isClosed 16 = .ok (.goto 6, 3) := by decide +kernel
theorem dL_isClosed_19 : decode cL_isClosed 19 = .ok (.astore_n 3, 1) := by decide +kernel
theorem dL_isClosed_20 : decode cL_isClosed 20 = .ok (.iconst 1, 1) := by decide +kernel
theorem dL_isClosed_21 : decode cL_isClosed 21 = .ok (.ireturn, 1) := by decide +kernel
theorem dL_isClosed_22 : decode cL_isClosed 22 = .ok (.iconst 0, 1) := by decide +kernel
theorem dL_isClosed_23 : decode cL_isClosed 23 = .ok (.ireturn, 1) := by decide +kernel
set_option maxRecDepth 20000 in
theorem ggL_primesWithin_X7_primesWithin : GoodIn wsL_primesWithin wsX7_primesWithin := goodIn_ca (goodIn_ca (goodIn_r _ [6, 7, 8, 9, 10, 5, 11, 12, 13, 14, 15, 16, 17, 18, 19, 20, 21, 22, 23, 24, 25, 26, 27, 28, 29, 30, 31, 32, 33, 34, 35, 36, 37, 38, 39, 40, 41, 42, 43, 44, 45, 46, 47, 48, 49, 50, 51, 52, 53, 54, 55, 56, 57, 58, 59, 60, 61, 62, 63, 64, 65, 66, 67, 68, 69, 70, 71, 72, 73, 74, 75, 76, 77] (by decide +kernel) (by decide +kernel)) (goodIn_sub (fun _ h => List.mem_cons_of_mem _ (List.mem_append_left _ (List.mem_append_right _ h))) (by decide +kernel))) (goodIn_sub (fun _ h => List.mem_cons_of_mem _ (List.mem_append_right _ h)) (by decide +kernel))
set_option maxRecDepth 20000 in
theorem gL_primesWithin_X7_primesWithin : GoodIn wsL_primesWithin (wsV RL 104 RX7 yX7_primesWithin wsX7_primesWithin) := goodIn_app (goodIn_of _ (by decide +kernel)) ggL_primesWithin_X7_primesWithin
theorem dL_primesWithin_0 : decode cL_primesWithin 0 = .ok (.aload_n 2, 1) := by decide +kernel
theorem dL_primesWithin_1 : decode cL_primesWithin 1 = .ok (.iconst 0, 1) := by decide +kernel
theorem dL_primesWithin_2 : decode cL_primesWithin 2 = .ok (.aload_n 0, 1) := by decide +kernel
theorem dL_primesWithin_3 : decode cL_primesWithin 3 = .ok (.iload_n 1, 1) := by decide +kernel
theorem dL_primesWithin_4 : decode cL_primesWithin 4 = .ok (.invokevirtual 104, 3) := by decide +kernel
theorem dL_primesWithin_7 : decode cL_primesWithin 7 = .ok (.i2l, 1) := by decide +kernel
theorem dL_primesWithin_8 : decode cL_primesWithin 8 = .ok (.lastore, 1) := by decide +kernel
theorem dL_primesWithin_9 : decode cL_primesWithin 9 = .ok (.goto 6, 3) := by decide +kernel
theorem dL_primesWithin_12 : decode cL_primesWithin 12 = .ok (.astore_n 3, 1) := by decide +kernel
theorem dL_primesWithin_13 : decode cL_primesWithin 13 = .ok (.iconst 1, 1) := by decide +kernel
theorem dL_primesWithin_14 : decode cL_primesWithin 14 = .ok (.ireturn, 1) := by decide +kernel
theorem dL_primesWithin_15 : decode cL_primesWithin 15 = .ok (.iconst 0, 1) := by decide +kernel
theorem dL_primesWithin_16 : decode cL_primesWithin 16 = .ok (.ireturn, 1) := by decide +kernel
set_option maxRecDepth 20000 in
theorem ggL_type_X7_type : GoodIn wsL_type wsX7_type := goodIn_ca (goodIn_r _ [6, 7, 8, 9, 10, 11, 12, 13, 14, 15, 16, 17, 18, 19, 20, 21, 22, 23, 24, 25, 26, 27, 28, 29, 30, 31, 32, 33, 34, 35] (by decide +kernel) (by decide +kernel)) (goodIn_sub (fun _ h => List.mem_cons_of_mem _ (List.mem_append_right _ h)) (by decide +kernel))
set_option maxRecDepth 20000 in
theorem gL_type_X7_type : GoodIn wsL_type (wsV RL 107 RX7 yX7_type wsX7_type) := goodIn_app (goodIn_of _ (by decide +kernel)) ggL_type_X7_type
theorem dL_type_0 : decode cL_type 0 = .ok (.aload_n 3, 1) := by decide +kernel
theorem dL_type_1 : decode cL_type 1 = .ok (.iconst 0, 1) := by decide +kernel
theorem dL_type_2 : decode cL_type 2 = .ok (.aload_n 0, 1) := by decide +kernel
theorem dL_type_3 : decode cL_type 3 = .ok (.lload_n 1, 1) := by decide +kernel
theorem dL_type_4 : decode cL_type 4 = .ok (.invokevirtual 107, 3) := by decide +kernel
theorem dL_type_7 : decode cL_type 7 = .ok (.i2l, 1) := by decide +kernel
theorem dL_type_8 : decode cL_type 8 = .ok (.lastore, 1) := by decide +kernel
theorem dL_type_9 : decode cL_type 9 = .ok (.goto 7, 3) := by decide +kernel
theorem dL_type_12 : decode cL_type 12 = .ok (.astore 4, 2) := by decide +kernel
theorem dL_type_14 : decode cL_type 14 = .ok (.iconst 1, 1) := by decide +kernel
theorem dL_type_15 : decode cL_type 15 = .ok (.ireturn, 1) := by decide +kernel
theorem dL_type_16 : decode cL_type 16 = .ok (.iconst 0, 1) := by decide +kernel
theorem dL_type_17 : decode cL_type 17 = .ok (.ireturn, 1) := by decide +kernel
set_option maxRecDepth 20000 in
theorem ggL_example_X7_example : GoodIn wsL_example wsX7_example := goodIn_ca (goodIn_r _ [6, 7, 8, 9, 5, 10, 11, 12, 13, 14, 15, 16, 17, 18, 19, 20, 21, 22, 23, 24, 25, 26, 27, 28, 29, 30, 31, 32, 33, 34, 35, 36, 37, 38, 39, 40, 41, 42, 43, 44, 45, 46, 47, 48, 49, 50, 51, 52, 53, 54, 55, 56, 57, 58, 59, 60, 61, 62, 63, 64, 65, 66, 67, 68, 69, 70, 71, 72, 73, 74, 75, 76, 77, 78, 79, 80, 81, 82, 83, 84, 85, 86] (by decide +kernel) (by decide +kernel)) (goodIn_sub (fun _ h => List.mem_cons_of_mem _ (List.mem_append_right _ h)) (by decide +kernel))
set_option maxRecDepth 20000 in
theorem gL_example_X7_example : GoodIn wsL_example (wsV RL 111 RX7 yX7_example wsX7_example) := goodIn_app (goodIn_of _ (by decide +kernel)) ggL_example_X7_example
theorem dL_example_0 : decode cL_example 0 = .ok (.aload_n 2, 1) := by decide +kernel
theorem dL_example_1 : decode cL_example 1 = .ok (.iconst 0, 1) := by decide +kernel
theorem dL_example_2 : decode cL_example 2 = .ok (.aload_n 0, 1) := by decide +kernel
theorem dL_example_3 : decode cL_example 3 = .ok (.iload_n 1, 1) := by decide +kernel
theorem dL_example_4 : decode cL_example 4 = .ok (.invokevirtual 111, 3) := by decide +kernel
theorem dL_example_7 : decode cL_example 7 = .ok (.i2l, 1) := by decide +kernel
theorem dL_example_8 : decode cL_example 8 = .ok (.lastore, 1) := by decide +kernel
theorem dL_example_9 : decode cL_example 9 = .ok (.goto 6, 3) := by decide +kernel
theorem dL_example_12 : decode cL_example 12 = .ok (.astore_n 3, 1) := by decide +kernel
theorem dL_example_13 : decode cL_example 13 = .ok (.iconst 1, 1) := by decide +kernel
theorem dL_example_14 : decode cL_example 14 = .ok (.ireturn, 1) := by decide +kernel
theorem dL_example_15 : decode cL_example 15 = .ok (.iconst 0, 1) := by decide +kernel
theorem dL_example_16 : decode cL_example 16 = .ok (.ireturn, 1) := by decide +kernel
set_option maxRecDepth 20000 in
theorem ggL_run_X7_run : GoodIn wsL_run wsX7_run := goodIn_ca (goodIn_ca (goodIn_r _ [6, 7, 8, 9, 10, 11, 12, 13, 14, 15, 16, 17, 18, 19, 20, 21, 22, 23, 24, 25, 26, 27, 28, 29, 30, 31, 32, 33, 34, 35, 36, 37, 38, 39, 40, 41, 42, 43, 44, 45, 46, 47, 48, 49, 50, 51, 52, 53, 54, 55, 56, 57, 58, 59, 60, 61, 62, 63, 64, 65, 66, 67, 68, 69, 70, 71, 72, 73, 74, 75, 76, 77, 78, 79, 80, 81, 82, 83, 84, 85, 86, 87, 88, 89, 90, 91, 92, 93, 94, 95, 96, 97, 98, 99, 100, 101, 102, 103, 104, 105, 106, 107, 108, 109, 110, 111, 112, 113, 114, 115, 116, 117, 118, 119, 120, 121, 122, 123, 124, 125, 126, 127, 128, 129, 130, 131, 132, 133, 134, 135, 136, 137, 138, 139, 140, 141, 142, 143, 144, 145, 146, 147, 148, 149, 150, 151, 152, 153, 154, 155, 156, 157, 158, 159, 160, 161, 162, 163, 164, 165, 166, 167, 168, 169, 170, 171, 172, 173, 174, 175, 176, 177, 178, 179, 180, 181, 182, 183, 184, 185, 186, 187, 188, 189, 190, 191, 192, 193, 194, 195, 196, 197, 198, 199, 200, 201, 202, 203, 204] (by decide +kernel) (by decide +kernel)) (goodIn_sub (fun _ h => List.mem_cons_of_mem _ (List.mem_append_left _ (List.mem_append_right _ h))) (by decide +kernel))) (goodIn_sub (fun _ h => List.mem_cons_of_mem _ (List.mem_append_right _ h)) (by decide +kernel))
set_option maxRecDepth 20000 in
theorem gL_run_X7_run : GoodIn wsL_run (wsV RL 114 RX7 yX7_run wsX7_run) := goodIn_app (goodIn_of _ (by decide +kernel)) ggL_run_X7_run
theorem dL_run_0 : decode cL_run 0 = .ok (.aload_n 1, 1) := by decide +kernel
theorem dL_run_1 : decode cL_run 1 = .ok (.iconst 0, 1) := by decide +kernel
theorem dL_run_2 : decode cL_run 2 = .ok (.aload_n 0, 1) := by decide +kernel
theorem dL_run_3 : decode cL_run 3 = .ok (.invokevirtual 114, 3) := by decide +kernel
theorem dL_run_6 : decode cL_run 6 = .ok (.i2l, 1) := by decide +kernel
theorem dL_run_7 : decode cL_run 7 = .ok (.lastore, 1) := by decide +kernel
theorem dL_run_8 : decode cL_run 8 = .ok (.goto 6, 3) := by decide +kernel
theorem dL_run_11 : decode cL_run 11 = .ok (.astore_n 2, 1) := by decide +kernel
theorem dL_run_12 : decode cL_run 12 = .ok (.iconst 1, 1) := by decide +kernel
theorem dL_run_13 : decode cL_run 13 = .ok (.ireturn, 1) := by decide +kernel
theorem dL_run_14 : decode cL_run 14 = .ok (.iconst 0, 1) := by decide +kernel
theorem dL_run_15 : decode cL_run 15 = .ok (.ireturn, 1) := by decide +kernel
set_option maxRecDepth 20000 in
theorem ggL_viewHas_X7_viewHas : GoodIn wsL_viewHas wsX7_viewHas := goodIn_ca (goodIn_ca (goodIn_r _ [6, 7, 8, 9, 5, 10, 11, 12, 13, 14, 15, 16, 17, 18, 19, 20, 21, 22, 23, 24, 25, 26, 27, 28, 29, 30, 31, 32, 33, 34, 35, 36, 37, 38, 39, 40, 41, 42, 43, 44, 45] (by decide +kernel) (by decide +kernel)) (goodIn_sub (fun _ h => List.mem_cons_of_mem _ (List.mem_append_left _ (List.mem_append_right _ h))) (by decide +kernel))) (goodIn_sub (fun _ h => List.mem_cons_of_mem _ (List.mem_append_right _ h)) (by decide +kernel))
set_option maxRecDepth 20000 in
theorem gL_viewHas_X7_viewHas : GoodIn wsL_viewHas (wsV RL 118 RX7 yX7_viewHas wsX7_viewHas) := goodIn_app (goodIn_of _ (by decide +kernel)) ggL_viewHas_X7_viewHas
theorem dL_viewHas_0 : decode cL_viewHas 0 = .ok (.aload_n 3, 1) := by decide +kernel
theorem dL_viewHas_1 : decode cL_viewHas 1 = .ok (.iconst 0, 1) := by decide +kernel
theorem dL_viewHas_2 : decode cL_viewHas 2 = .ok (.aload_n 0, 1) := by decide +kernel
theorem dL_viewHas_3 : decode cL_viewHas 3 = .ok (.iload_n 1, 1) := by decide +kernel
theorem dL_viewHas_4 : decode cL_viewHas 4 = .ok (.iload_n 2, 1) := by decide +kernel
theorem dL_viewHas_5 : decode cL_viewHas 5 = .ok (.invokevirtual 118, 3) := by decide +kernel
theorem dL_viewHas_8 : decode cL_viewHas 8 = .ok (.ifCond .eq 7, 3) := by decide +kernel
theorem dL_viewHas_11 : decode cL_viewHas 11 = .ok (.lconst 1, 1) := by decide +kernel
theorem dL_viewHas_12 : decode cL_viewHas 12 = .ok (.goto 4, 3) := by decide +kernel
theorem dL_viewHas_15 : decode cL_viewHas 15 = .ok (.lconst 0, 1) := by decide +kernel
theorem dL_viewHas_16 : decode cL_viewHas 16 = .ok (.lastore, 1) := by decide +kernel
theorem dL_viewHas_17 : decode cL_viewHas 17 = .ok (.goto 11, 3) := by decide +kernel
theorem dL_viewHas_20 : decode cL_viewHas 20 = .ok (.astore 4, 2) := by decide +kernel
theorem dL_viewHas_22 : decode cL_viewHas 22 = .ok (.iconst 1, 1) := by decide +kernel
theorem dL_viewHas_23 : decode cL_viewHas 23 = .ok (.ireturn, 1) := by decide +kernel
theorem dL_viewHas_24 : decode cL_viewHas 24 = .ok (.astore 4, 2) := by decide +kernel
theorem dL_viewHas_26 : decode cL_viewHas 26 = .ok (.iconst 2, 1) := by decide +kernel
theorem dL_viewHas_27 : decode cL_viewHas 27 = .ok (.ireturn, 1) := by decide +kernel
theorem dL_viewHas_28 : decode cL_viewHas 28 = .ok (.iconst 0, 1) := by decide +kernel
theorem dL_viewHas_29 : decode cL_viewHas 29 = .ok (.ireturn, 1) := by decide +kernel
set_option maxRecDepth 20000 in
theorem ggL_viewRefuses_X7_viewRefuses : GoodIn wsL_viewRefuses wsX7_viewRefuses := goodIn_ca (goodIn_ca (goodIn_ca (goodIn_ca (goodIn_ca (goodIn_ca (goodIn_r _ [6, 7, 8, 9, 10, 5, 11, 12, 13, 14, 15, 16, 17, 18, 19, 20, 21, 22, 23, 24, 25, 26, 27, 28, 29, 30, 31, 32, 33, 34, 35, 36, 37, 38, 39, 40, 41, 42, 43, 44, 45, 46, 47, 48, 49, 50, 51, 52, 53, 54, 55, 56, 57, 58, 59, 60, 61, 62, 63, 64, 65, 66, 67, 68, 69, 70, 71, 72, 73, 74, 75, 76, 77, 78, 79, 80, 81, 82, 83, 84, 85, 86, 87, 88, 89, 90, 91, 92, 93, 94, 95, 96, 97, 98, 99, 100, 101, 102, 103, 104, 105, 106, 107, 108, 109, 110, 111, 112, 113, 114, 115, 116, 117, 118, 119, 120, 121, 122, 123, 124, 125, 126, 127, 128, 129, 130, 131, 132, 133, 134, 135, 136, 137, 138, 139] (by decide +kernel) (by decide +kernel)) (goodIn_sub (fun _ h => List.mem_cons_of_mem _ (List.mem_append_left _ (List.mem_append_left _ (List.mem_append_left _ (List.mem_append_left _ (List.mem_append_left _ (List.mem_append_right _ h))))))) (by decide +kernel))) (goodIn_sub (fun _ h => List.mem_cons_of_mem _ (List.mem_append_left _ (List.mem_append_left _ (List.mem_append_left _ (List.mem_append_left _ (List.mem_append_right _ h)))))) (by decide +kernel))) (goodIn_sub (fun _ h => List.mem_cons_of_mem _ (List.mem_append_left _ (List.mem_append_left _ (List.mem_append_left _ (List.mem_append_right _ h))))) (by decide +kernel))) (goodIn_sub (fun _ h => List.mem_cons_of_mem _ (List.mem_append_left _ (List.mem_append_left _ (List.mem_append_right _ h)))) (by decide +kernel))) (goodIn_sub (fun _ h => List.mem_cons_of_mem _ (List.mem_append_left _ (List.mem_append_right _ h))) (by decide +kernel))) (goodIn_sub (fun _ h => List.mem_cons_of_mem _ (List.mem_append_right _ h)) (by decide +kernel))
set_option maxRecDepth 20000 in
theorem gL_viewRefuses_X7_viewRefuses : GoodIn wsL_viewRefuses (wsV RL 121 RX7 yX7_viewRefuses wsX7_viewRefuses) := goodIn_app (goodIn_of _ (by decide +kernel)) ggL_viewRefuses_X7_viewRefuses
theorem dL_viewRefuses_0 : decode cL_viewRefuses 0 = .ok (.aload 4, 2) := by decide +kernel
theorem dL_viewRefuses_2 : decode cL_viewRefuses 2 = .ok (.iconst 0, 1) := by decide +kernel
theorem dL_viewRefuses_3 : decode cL_viewRefuses 3 = .ok (.aload_n 0, 1) := by decide +kernel
theorem dL_viewRefuses_4 : decode cL_viewRefuses 4 = .ok (.iload_n 1, 1) := by decide +kernel
theorem dL_viewRefuses_5 : decode cL_viewRefuses 5 = .ok (.iload_n 2, 1) := by decide +kernel
theorem dL_viewRefuses_6 : decode cL_viewRefuses 6 = .ok (.iload_n 3, 1) := by decide +kernel
theorem dL_viewRefuses_7 : decode cL_viewRefuses 7 = .ok (.invokevirtual 121, 3) := by decide +kernel
theorem dL_viewRefuses_10 : decode cL_viewRefuses 10 = .ok (.ifCond .eq 7, 3) := by decide +kernel
theorem dL_viewRefuses_13 : decode cL_viewRefuses 13 = .ok (.lconst 1, 1) := by decide +kernel
theorem dL_viewRefuses_14 : decode cL_viewRefuses 14 = .ok (.goto 4, 3) := by decide +kernel
theorem dL_viewRefuses_17 : decode cL_viewRefuses 17 = .ok (.lconst 0, 1) := by decide +kernel
theorem dL_viewRefuses_18 : decode cL_viewRefuses 18 = .ok (.lastore, 1) := by decide +kernel
theorem dL_viewRefuses_19 : decode cL_viewRefuses 19 = .ok (.goto 11, 3) := by decide +kernel
theorem dL_viewRefuses_22 : decode cL_viewRefuses 22 = .ok (.astore 5, 2) := by decide +kernel
theorem dL_viewRefuses_24 : decode cL_viewRefuses 24 = .ok (.iconst 1, 1) := by decide +kernel
theorem dL_viewRefuses_25 : decode cL_viewRefuses 25 = .ok (.ireturn, 1) := by decide +kernel
theorem dL_viewRefuses_26 : decode cL_viewRefuses 26 = .ok (.astore 5, 2) := by decide +kernel
theorem dL_viewRefuses_28 : decode cL_viewRefuses 28 = .ok (.iconst 2, 1) := by decide +kernel
theorem dL_viewRefuses_29 : decode cL_viewRefuses 29 = .ok (.ireturn, 1) := by decide +kernel
theorem dL_viewRefuses_30 : decode cL_viewRefuses 30 = .ok (.iconst 0, 1) := by decide +kernel
theorem dL_viewRefuses_31 : decode cL_viewRefuses 31 = .ok (.ireturn, 1) := by decide +kernel
set_option maxRecDepth 20000 in
theorem ggL_walkRefuses_X7_walkRefuses : GoodIn wsL_walkRefuses wsX7_walkRefuses := goodIn_ca (goodIn_ca (goodIn_ca (goodIn_ca (goodIn_ca (goodIn_r _ [6, 7, 8, 9, 10, 11, 5, 12, 13, 14, 15, 16, 17, 18, 19, 20, 21, 22, 23, 24, 25, 26, 27, 28, 29, 30, 31, 32, 33, 34, 35, 36, 37, 38, 39, 40, 41, 42, 43, 44, 45, 46, 47, 48, 49, 50, 51, 52, 53, 54, 55, 56, 57, 58, 59, 60, 61, 62, 63, 64, 65, 66, 67, 68, 69, 70, 71, 72, 73, 74, 75, 76, 77, 78, 79, 80, 81, 82, 83, 84, 85, 86, 87, 88, 89, 90, 91, 92, 93, 94, 95] (by decide +kernel) (by decide +kernel)) (goodIn_sub (fun _ h => List.mem_cons_of_mem _ (List.mem_append_left _ (List.mem_append_left _ (List.mem_append_left _ (List.mem_append_left _ (List.mem_append_right _ h)))))) (by decide +kernel))) (goodIn_sub (fun _ h => List.mem_cons_of_mem _ (List.mem_append_left _ (List.mem_append_left _ (List.mem_append_left _ (List.mem_append_right _ h))))) (by decide +kernel))) (goodIn_sub (fun _ h => List.mem_cons_of_mem _ (List.mem_append_left _ (List.mem_append_left _ (List.mem_append_right _ h)))) (by decide +kernel))) (goodIn_sub (fun _ h => List.mem_cons_of_mem _ (List.mem_append_left _ (List.mem_append_right _ h))) (by decide +kernel))) (goodIn_sub (fun _ h => List.mem_cons_of_mem _ (List.mem_append_right _ h)) (by decide +kernel))
set_option maxRecDepth 20000 in
theorem gL_walkRefuses_X7_walkRefuses : GoodIn wsL_walkRefuses (wsV RL 125 RX7 yX7_walkRefuses wsX7_walkRefuses) := goodIn_app (goodIn_of _ (by decide +kernel)) ggL_walkRefuses_X7_walkRefuses
theorem dL_walkRefuses_0 : decode cL_walkRefuses 0 = .ok (.aload_n 3, 1) := by decide +kernel
theorem dL_walkRefuses_1 : decode cL_walkRefuses 1 = .ok (.iconst 0, 1) := by decide +kernel
theorem dL_walkRefuses_2 : decode cL_walkRefuses 2 = .ok (.aload_n 0, 1) := by decide +kernel
theorem dL_walkRefuses_3 : decode cL_walkRefuses 3 = .ok (.iload_n 1, 1) := by decide +kernel
theorem dL_walkRefuses_4 : decode cL_walkRefuses 4 = .ok (.iload_n 2, 1) := by decide +kernel
theorem dL_walkRefuses_5 : decode cL_walkRefuses 5 = .ok (.invokevirtual 125, 3) := by decide +kernel
theorem dL_walkRefuses_8 : decode cL_walkRefuses 8 = .ok (.i2l, 1) := by decide +kernel
theorem dL_walkRefuses_9 : decode cL_walkRefuses 9 = .ok (.lastore, 1) := by decide +kernel
theorem dL_walkRefuses_10 : decode cL_walkRefuses 10 = .ok (.goto 11, 3) := by decide +kernel
theorem dL_walkRefuses_13 : decode cL_walkRefuses 13 = .ok (.astore 4, 2) := by decide +kernel
theorem dL_walkRefuses_15 : decode cL_walkRefuses 15 = .ok (.iconst 1, 1) := by decide +kernel
theorem dL_walkRefuses_16 : decode cL_walkRefuses 16 = .ok (.ireturn, 1) := by decide +kernel
theorem dL_walkRefuses_17 : decode cL_walkRefuses 17 = .ok (.astore 4, 2) := by decide +kernel
theorem dL_walkRefuses_19 : decode cL_walkRefuses 19 = .ok (.iconst 2, 1) := by decide +kernel
theorem dL_walkRefuses_20 : decode cL_walkRefuses 20 = .ok (.ireturn, 1) := by decide +kernel
theorem dL_walkRefuses_21 : decode cL_walkRefuses 21 = .ok (.iconst 0, 1) := by decide +kernel
theorem dL_walkRefuses_22 : decode cL_walkRefuses 22 = .ok (.ireturn, 1) := by decide +kernel
set_option maxRecDepth 20000 in
theorem ggL_nullRefuses_X7_nullRefuses : GoodIn wsL_nullRefuses wsX7_nullRefuses := goodIn_ca (goodIn_ca (goodIn_ca (goodIn_r _ [6, 7, 8, 9, 10, 5, 11, 12, 13, 14, 15, 16, 17, 18, 19, 20, 21, 22, 23, 24, 25, 26, 27, 28, 29, 30, 31, 32, 33, 34, 35, 36, 37, 38, 39, 40, 41, 42, 43, 44, 45, 46, 47, 48, 49, 50, 51, 52, 53] (by decide +kernel) (by decide +kernel)) (goodIn_sub (fun _ h => List.mem_cons_of_mem _ (List.mem_append_left _ (List.mem_append_left _ (List.mem_append_right _ h)))) (by decide +kernel))) (goodIn_sub (fun _ h => List.mem_cons_of_mem _ (List.mem_append_left _ (List.mem_append_right _ h))) (by decide +kernel))) (goodIn_sub (fun _ h => List.mem_cons_of_mem _ (List.mem_append_right _ h)) (by decide +kernel))
set_option maxRecDepth 20000 in
theorem gL_nullRefuses_X7_nullRefuses : GoodIn wsL_nullRefuses (wsV RL 128 RX7 yX7_nullRefuses wsX7_nullRefuses) := goodIn_app (goodIn_of _ (by decide +kernel)) ggL_nullRefuses_X7_nullRefuses
theorem dL_nullRefuses_0 : decode cL_nullRefuses 0 = .ok (.aload_n 3, 1) := by decide +kernel
theorem dL_nullRefuses_1 : decode cL_nullRefuses 1 = .ok (.iconst 0, 1) := by decide +kernel
theorem dL_nullRefuses_2 : decode cL_nullRefuses 2 = .ok (.aload_n 0, 1) := by decide +kernel
theorem dL_nullRefuses_3 : decode cL_nullRefuses 3 = .ok (.iload_n 1, 1) := by decide +kernel
theorem dL_nullRefuses_4 : decode cL_nullRefuses 4 = .ok (.iload_n 2, 1) := by decide +kernel
theorem dL_nullRefuses_5 : decode cL_nullRefuses 5 = .ok (.invokevirtual 128, 3) := by decide +kernel
theorem dL_nullRefuses_8 : decode cL_nullRefuses 8 = .ok (.ifCond .eq 7, 3) := by decide +kernel
theorem dL_nullRefuses_11 : decode cL_nullRefuses 11 = .ok (.lconst 1, 1) := by decide +kernel
theorem dL_nullRefuses_12 : decode cL_nullRefuses 12 = .ok (.goto 4, 3) := by decide +kernel
theorem dL_nullRefuses_15 : decode cL_nullRefuses 15 = .ok (.lconst 0, 1) := by decide +kernel
theorem dL_nullRefuses_16 : decode cL_nullRefuses 16 = .ok (.lastore, 1) := by decide +kernel
theorem dL_nullRefuses_17 : decode cL_nullRefuses 17 = .ok (.goto 11, 3) := by decide +kernel
theorem dL_nullRefuses_20 : decode cL_nullRefuses 20 = .ok (.astore 4, 2) := by decide +kernel
theorem dL_nullRefuses_22 : decode cL_nullRefuses 22 = .ok (.iconst 1, 1) := by decide +kernel
theorem dL_nullRefuses_23 : decode cL_nullRefuses 23 = .ok (.ireturn, 1) := by decide +kernel
theorem dL_nullRefuses_24 : decode cL_nullRefuses 24 = .ok (.astore 4, 2) := by decide +kernel
theorem dL_nullRefuses_26 : decode cL_nullRefuses 26 = .ok (.iconst 2, 1) := by decide +kernel
theorem dL_nullRefuses_27 : decode cL_nullRefuses 27 = .ok (.ireturn, 1) := by decide +kernel
theorem dL_nullRefuses_28 : decode cL_nullRefuses 28 = .ok (.iconst 0, 1) := by decide +kernel
theorem dL_nullRefuses_29 : decode cL_nullRefuses 29 = .ok (.ireturn, 1) := by decide +kernel
set_option maxRecDepth 20000 in
theorem ggL_lawErrors_X7_lawErrors : GoodIn wsL_lawErrors wsX7_lawErrors := goodIn_ca (goodIn_ca (goodIn_r _ [6, 7, 8, 9, 10, 5, 11, 12, 13, 14, 15, 16, 17, 18, 19, 20, 21, 22, 23, 24, 25, 26, 27, 28, 29, 30, 31, 32, 33, 34, 35, 36, 37, 38, 39, 40, 41, 42, 43, 44, 45, 46, 47, 48, 49, 50, 51, 52, 53, 54, 55, 56, 57, 58, 59, 60, 61, 62, 63, 64, 65, 66, 67, 68, 69, 70, 71, 72, 73, 74, 75, 76, 77, 78, 79, 80, 81, 82, 83, 84, 85, 86, 87, 88, 89, 90, 91, 92, 93, 94, 95, 96, 97, 98, 99, 100, 101, 102, 103, 104, 105, 106, 107] (by decide +kernel) (by decide +kernel)) (goodIn_sub (fun _ h => List.mem_cons_of_mem _ (List.mem_append_left _ (List.mem_append_right _ h))) (by decide +kernel))) (goodIn_sub (fun _ h => List.mem_cons_of_mem _ (List.mem_append_right _ h)) (by decide +kernel))
set_option maxRecDepth 20000 in
theorem gL_lawErrors_X7_lawErrors : GoodIn wsL_lawErrors (wsV RL 131 RX7 yX7_lawErrors wsX7_lawErrors) := goodIn_app (goodIn_of _ (by decide +kernel)) ggL_lawErrors_X7_lawErrors
theorem dL_lawErrors_0 : decode cL_lawErrors 0 = .ok (.aload 4, 2) := by decide +kernel
theorem dL_lawErrors_2 : decode cL_lawErrors 2 = .ok (.iconst 0, 1) := by decide +kernel
theorem dL_lawErrors_3 : decode cL_lawErrors 3 = .ok (.aload_n 0, 1) := by decide +kernel
theorem dL_lawErrors_4 : decode cL_lawErrors 4 = .ok (.iload_n 1, 1) := by decide +kernel
theorem dL_lawErrors_5 : decode cL_lawErrors 5 = .ok (.iload_n 2, 1) := by decide +kernel
theorem dL_lawErrors_6 : decode cL_lawErrors 6 = .ok (.iload_n 3, 1) := by decide +kernel
theorem dL_lawErrors_7 : decode cL_lawErrors 7 = .ok (.invokevirtual 131, 3) := by decide +kernel
theorem dL_lawErrors_10 : decode cL_lawErrors 10 = .ok (.i2l, 1) := by decide +kernel
theorem dL_lawErrors_11 : decode cL_lawErrors 11 = .ok (.lastore, 1) := by decide +kernel
theorem dL_lawErrors_12 : decode cL_lawErrors 12 = .ok (.goto 7, 3) := by decide +kernel
theorem dL_lawErrors_15 : decode cL_lawErrors 15 = .ok (.astore 5, 2) := by decide +kernel
theorem dL_lawErrors_17 : decode cL_lawErrors 17 = .ok (.iconst 1, 1) := by decide +kernel
theorem dL_lawErrors_18 : decode cL_lawErrors 18 = .ok (.ireturn, 1) := by decide +kernel
theorem dL_lawErrors_19 : decode cL_lawErrors 19 = .ok (.iconst 0, 1) := by decide +kernel
theorem dL_lawErrors_20 : decode cL_lawErrors 20 = .ok (.ireturn, 1) := by decide +kernel
