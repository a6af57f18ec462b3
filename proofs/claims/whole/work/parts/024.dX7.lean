set_option maxRecDepth 20000 in
theorem ggX7_init_X2_init : GoodIn wsX7_init wsX2_init := goodIn_r _ [32, 33, 2, 3, 34, 35, 90, 91] (by decide +kernel) (by decide +kernel)
set_option maxRecDepth 20000 in
theorem gX7_init_X2_init : GoodIn wsX7_init (wsX2_init) := ggX7_init_X2_init
set_option maxRecDepth 20000 in
theorem ggX7_init_X5_init : GoodIn wsX7_init wsX5_init := goodIn_r _ [38, 39, 2, 3, 40, 92] (by decide +kernel) (by decide +kernel)
set_option maxRecDepth 20000 in
theorem gX7_init_X5_init : GoodIn wsX7_init (wsX5_init) := ggX7_init_X5_init
set_option maxRecDepth 20000 in
theorem ggX7_init_X0_init : GoodIn wsX7_init wsX0_init := goodIn_r _ [43, 44, 2, 3, 45, 46, 8, 9, 47, 48, 49, 31, 32, 33, 34, 35, 93, 94, 95, 90, 91] (by decide +kernel) (by decide +kernel)
set_option maxRecDepth 20000 in
theorem gX7_init_X0_init : GoodIn wsX7_init (wsX0_init) := ggX7_init_X0_init
set_option maxRecDepth 20000 in
theorem ggX7_init_X4_init : GoodIn wsX7_init wsX4_init := goodIn_r _ [52, 53, 2, 3, 54, 55, 56, 96, 97] (by decide +kernel) (by decide +kernel)
set_option maxRecDepth 20000 in
theorem gX7_init_X4_init : GoodIn wsX7_init (wsX4_init) := ggX7_init_X4_init
set_option maxRecDepth 20000 in
theorem ggX7_init_X3_init : GoodIn wsX7_init wsX3_init := goodIn_r _ [59, 60, 2, 3, 61, 62, 63, 8, 9, 64, 65, 66, 67, 68, 69, 70, 71, 72, 31, 32, 33, 34, 35, 98, 99, 100, 101, 102, 103, 104, 105, 106, 107, 108, 109, 110, 111, 112, 90, 91] (by decide +kernel) (by decide +kernel)
set_option maxRecDepth 20000 in
theorem gX7_init_X3_init : GoodIn wsX7_init (wsX3_init) := ggX7_init_X3_init
set_option maxRecDepth 20000 in
theorem ggX7_init_X1_init : GoodIn wsX7_init wsX1_init := goodIn_r _ [75, 76, 2, 3, 77, 8, 9, 78, 79, 80, 81, 31, 32, 33, 34, 35, 90, 91, 113, 114, 115] (by decide +kernel) (by decide +kernel)
set_option maxRecDepth 20000 in
theorem gX7_init_X1_init : GoodIn wsX7_init (wsX1_init) := ggX7_init_X1_init
theorem dX7_init_0 : decode cX7_init 0 = .ok (.aload_n 0, 1) := by decide +kernel
theorem dX7_init_1 : decode cX7_init 1 = .ok (.invokespecial 1, 3) := by decide +kernel
theorem dX7_init_4 : decode cX7_init 4 = .ok (.aload_n 0, 1) := by decide +kernel
theorem dX7_init_5 : decode cX7_init 5 = .ok (.bipush 8, 2) := by decide +kernel
theorem dX7_init_7 : decode cX7_init 7 = .ok (.anewarray 9, 3) := by decide +kernel
theorem dX7_init_10 : decode cX7_init 10 = .ok (.putfield 11, 3) := by decide +kernel
theorem dX7_init_13 : decode cX7_init 13 = .ok (.aload_n 0, 1) := by decide +kernel
theorem dX7_init_14 : decode cX7_init 14 = .ok (.bipush 8, 2) := by decide +kernel
theorem dX7_init_16 : decode cX7_init 16 = .ok (.anewarray 15, 3) := by decide +kernel
theorem dX7_init_19 : decode cX7_init 19 = .ok (.putfield 17, 3) := by decide +kernel
theorem dX7_init_22 : decode cX7_init 22 = .ok (.iconst 0, 1) := by decide +kernel
theorem dX7_init_23 : decode cX7_init 23 = .ok (.istore_n 1, 1) := by decide +kernel
theorem dX7_init_24 : decode cX7_init 24 = .ok (.iload_n 1, 1) := by decide +kernel
theorem dX7_init_25 : decode cX7_init 25 = .ok (.bipush 8, 2) := by decide +kernel
theorem dX7_init_27 : decode cX7_init 27 = .ok (.if_icmp .ge 41, 3) := by decide +kernel
theorem dX7_init_30 : decode cX7_init 30 = .ok (.aload_n 0, 1) := by decide +kernel
theorem dX7_init_31 : decode cX7_init 31 = .ok (.getfield 11, 3) := by decide +kernel
theorem dX7_init_34 : decode cX7_init 34 = .ok (.iload_n 1, 1) := by decide +kernel
theorem dX7_init_35 : decode cX7_init 35 = .ok (.new 9, 3) := by decide +kernel
theorem dX7_init_38 : decode cX7_init 38 = .ok (.dup, 1) := by decide +kernel
theorem dX7_init_39 : decode cX7_init 39 = .ok (.invokespecial 21, 3) := by decide +kernel
theorem dX7_init_42 : decode cX7_init 42 = .ok (.aastore, 1) := by decide +kernel
theorem dX7_init_43 : decode cX7_init 43 = .ok (.aload_n 0, 1) := by decide +kernel
theorem dX7_init_44 : decode cX7_init 44 = .ok (.getfield 17, 3) := by decide +kernel
theorem dX7_init_47 : decode cX7_init 47 = .ok (.iload_n 1, 1) := by decide +kernel
theorem dX7_init_48 : decode cX7_init 48 = .ok (.new 15, 3) := by decide +kernel
theorem dX7_init_51 : decode cX7_init 51 = .ok (.dup, 1) := by decide +kernel
theorem dX7_init_52 : decode cX7_init 52 = .ok (.aload_n 0, 1) := by decide +kernel
theorem dX7_init_53 : decode cX7_init 53 = .ok (.getfield 11, 3) := by decide +kernel
theorem dX7_init_56 : decode cX7_init 56 = .ok (.iload_n 1, 1) := by decide +kernel
theorem dX7_init_57 : decode cX7_init 57 = .ok (.aaload, 1) := by decide +kernel
theorem dX7_init_58 : decode cX7_init 58 = .ok (.invokespecial 22, 3) := by decide +kernel
theorem dX7_init_61 : decode cX7_init 61 = .ok (.aastore, 1) := by decide +kernel
theorem dX7_init_62 : decode cX7_init 62 = .ok (.iinc 1 1, 3) := by decide +kernel
theorem dX7_init_65 : decode cX7_init 65 = .ok (.goto (-41), 3) := by decide +kernel
theorem dX7_init_68 : decode cX7_init 68 = .ok (.aload_n 0, 1) := by decide +kernel
theorem dX7_init_69 : decode cX7_init 69 = .ok (.new 25, 3) := by decide +kernel
theorem dX7_init_72 : decode cX7_init 72 = .ok (.dup, 1) := by decide +kernel
theorem dX7_init_73 : decode cX7_init 73 = .ok (.invokespecial 27, 3) := by decide +kernel
theorem dX7_init_76 : decode cX7_init 76 = .ok (.putfield 28, 3) := by decide +kernel
theorem dX7_init_79 : decode cX7_init 79 = .ok (.aload_n 0, 1) := by decide +kernel
theorem dX7_init_80 : decode cX7_init 80 = .ok (.new 25, 3) := by decide +kernel
theorem dX7_init_83 : decode cX7_init 83 = .ok (.dup, 1) := by decide +kernel
theorem dX7_init_84 : decode cX7_init 84 = .ok (.invokespecial 27, 3) := by decide +kernel
theorem dX7_init_87 : decode cX7_init 87 = .ok (.putfield 32, 3) := by decide +kernel
theorem dX7_init_90 : decode cX7_init 90 = .ok (.aload_n 0, 1) := by decide +kernel
theorem dX7_init_91 : decode cX7_init 91 = .ok (.new 9, 3) := by decide +kernel
theorem dX7_init_94 : decode cX7_init 94 = .ok (.dup, 1) := by decide +kernel
theorem dX7_init_95 : decode cX7_init 95 = .ok (.invokespecial 21, 3) := by decide +kernel
theorem dX7_init_98 : decode cX7_init 98 = .ok (.putfield 35, 3) := by decide +kernel
theorem dX7_init_101 : decode cX7_init 101 = .ok (.aload_n 0, 1) := by decide +kernel
theorem dX7_init_102 : decode cX7_init 102 = .ok (.new 39, 3) := by decide +kernel
theorem dX7_init_105 : decode cX7_init 105 = .ok (.dup, 1) := by decide +kernel
theorem dX7_init_106 : decode cX7_init 106 = .ok (.invokespecial 41, 3) := by decide +kernel
theorem dX7_init_109 : decode cX7_init 109 = .ok (.putfield 42, 3) := by decide +kernel
theorem dX7_init_112 : decode cX7_init 112 = .ok (.aload_n 0, 1) := by decide +kernel
theorem dX7_init_113 : decode cX7_init 113 = .ok (.new 46, 3) := by decide +kernel
theorem dX7_init_116 : decode cX7_init 116 = .ok (.dup, 1) := by decide +kernel
theorem dX7_init_117 : decode cX7_init 117 = .ok (.aload_n 0, 1) := by decide +kernel
theorem dX7_init_118 : decode cX7_init 118 = .ok (.getfield 42, 3) := by decide +kernel
theorem dX7_init_121 : decode cX7_init 121 = .ok (.invokespecial 48, 3) := by decide +kernel
theorem dX7_init_124 : decode cX7_init 124 = .ok (.putfield 51, 3) := by decide +kernel
theorem dX7_init_127 : decode cX7_init 127 = .ok (.aload_n 0, 1) := by decide +kernel
theorem dX7_init_128 : decode cX7_init 128 = .ok (.new 55, 3) := by decide +kernel
theorem dX7_init_131 : decode cX7_init 131 = .ok (.dup, 1) := by decide +kernel
theorem dX7_init_132 : decode cX7_init 132 = .ok (.invokespecial 57, 3) := by decide +kernel
theorem dX7_init_135 : decode cX7_init 135 = .ok (.putfield 58, 3) := by decide +kernel
theorem dX7_init_138 : decode cX7_init 138 = .ok (.return_, 1) := by decide +kernel
set_option maxRecDepth 20000 in
theorem ggX7_add_X7_setAt : GoodIn wsX7_add wsX7_setAt := goodIn_ca (goodIn_r _ [5, 6, 7, 8, 32, 33, 34, 35, 36, 37, 38, 39] (by decide +kernel) (by decide +kernel)) (goodIn_sub (fun _ h => List.mem_cons_of_mem _ (List.mem_append_left _ (List.mem_append_right _ h))) (by decide +kernel))
set_option maxRecDepth 20000 in
theorem gX7_add_X7_setAt : GoodIn wsX7_add (wsV RX7 62 RX7 yX7_setAt wsX7_setAt) := goodIn_app (goodIn_of _ (by decide +kernel)) ggX7_add_X7_setAt
set_option maxRecDepth 20000 in
theorem ggX7_add_X7_indexOfMember : GoodIn wsX7_add wsX7_indexOfMember := goodIn_ca (goodIn_r _ [11, 12, 13, 14, 15, 4, 16] (by decide +kernel) (by decide +kernel)) (goodIn_sub (fun _ h => List.mem_cons_of_mem _ (List.mem_append_right _ h)) (by decide +kernel))
set_option maxRecDepth 20000 in
theorem gX7_add_X7_indexOfMember : GoodIn wsX7_add (va_wsS RX7 66 yX7_indexOfMember wsX7_indexOfMember) := goodIn_app (goodIn_of _ (by decide +kernel)) ggX7_add_X7_indexOfMember
set_option maxRecDepth 20000 in
theorem ggX7_add_X2_put : GoodIn wsX7_add wsX2_put := goodIn_r _ [21, 22, 23, 24, 20, 25, 26, 27, 28, 29, 30, 31, 40, 41] (by decide +kernel) (by decide +kernel)
set_option maxRecDepth 20000 in
theorem gX7_add_X2_put : GoodIn wsX7_add (wsV RX7 70 RX2 yX2_put wsX2_put) := goodIn_app (goodIn_of _ (by decide +kernel)) ggX7_add_X2_put
theorem dX7_add_0 : decode cX7_add 0 = .ok (.aload_n 0, 1) := by decide +kernel
theorem dX7_add_1 : decode cX7_add 1 = .ok (.iload_n 1, 1) := by decide +kernel
theorem dX7_add_2 : decode cX7_add 2 = .ok (.invokevirtual 62, 3) := by decide +kernel
theorem dX7_add_5 : decode cX7_add 5 = .ok (.astore_n 3, 1) := by decide +kernel
theorem dX7_add_6 : decode cX7_add 6 = .ok (.aload_n 3, 1) := by decide +kernel
theorem dX7_add_7 : decode cX7_add 7 = .ok (.iload_n 2, 1) := by decide +kernel
theorem dX7_add_8 : decode cX7_add 8 = .ok (.invokestatic 66, 3) := by decide +kernel
theorem dX7_add_11 : decode cX7_add 11 = .ok (.invokevirtual 70, 3) := by decide +kernel
theorem dX7_add_14 : decode cX7_add 14 = .ok (.ireturn, 1) := by decide +kernel
set_option maxRecDepth 20000 in
theorem ggX7_remove_X7_setAt : GoodIn wsX7_remove wsX7_setAt := goodIn_ca (goodIn_r _ [5, 6, 7, 8, 32, 33, 34, 35, 36, 37, 38, 39] (by decide +kernel) (by decide +kernel)) (goodIn_sub (fun _ h => List.mem_cons_of_mem _ (List.mem_append_left _ (List.mem_append_right _ h))) (by decide +kernel))
set_option maxRecDepth 20000 in
theorem gX7_remove_X7_setAt : GoodIn wsX7_remove (wsV RX7 62 RX7 yX7_setAt wsX7_setAt) := goodIn_app (goodIn_of _ (by decide +kernel)) ggX7_remove_X7_setAt
set_option maxRecDepth 20000 in
theorem ggX7_remove_X7_indexOfMember : GoodIn wsX7_remove wsX7_indexOfMember := goodIn_ca (goodIn_r _ [11, 12, 13, 14, 15, 4, 16] (by decide +kernel) (by decide +kernel)) (goodIn_sub (fun _ h => List.mem_cons_of_mem _ (List.mem_append_right _ h)) (by decide +kernel))
set_option maxRecDepth 20000 in
theorem gX7_remove_X7_indexOfMember : GoodIn wsX7_remove (va_wsS RX7 66 yX7_indexOfMember wsX7_indexOfMember) := goodIn_app (goodIn_of _ (by decide +kernel)) ggX7_remove_X7_indexOfMember
set_option maxRecDepth 20000 in
theorem ggX7_remove_X2_takeOut : GoodIn wsX7_remove wsX2_takeOut := goodIn_r _ [21, 22, 23, 24, 20, 25, 26, 27, 28, 29, 30, 31, 40, 41] (by decide +kernel) (by decide +kernel)
set_option maxRecDepth 20000 in
theorem gX7_remove_X2_takeOut : GoodIn wsX7_remove (wsV RX7 74 RX2 yX2_takeOut wsX2_takeOut) := goodIn_app (goodIn_of _ (by decide +kernel)) ggX7_remove_X2_takeOut
theorem dX7_remove_0 : decode cX7_remove 0 = .ok (.aload_n 0, 1) := by decide +kernel
theorem dX7_remove_1 : decode cX7_remove 1 = .ok (.iload_n 1, 1) := by decide +kernel
theorem dX7_remove_2 : decode cX7_remove 2 = .ok (.invokevirtual 62, 3) := by decide +kernel
theorem dX7_remove_5 : decode cX7_remove 5 = .ok (.astore_n 3, 1) := by decide +kernel
theorem dX7_remove_6 : decode cX7_remove 6 = .ok (.aload_n 3, 1) := by decide +kernel
theorem dX7_remove_7 : decode cX7_remove 7 = .ok (.iload_n 2, 1) := by decide +kernel
theorem dX7_remove_8 : decode cX7_remove 8 = .ok (.invokestatic 66, 3) := by decide +kernel
theorem dX7_remove_11 : decode cX7_remove 11 = .ok (.invokevirtual 74, 3) := by decide +kernel
theorem dX7_remove_14 : decode cX7_remove 14 = .ok (.ireturn, 1) := by decide +kernel
set_option maxRecDepth 20000 in
theorem ggX7_has_X7_setAt : GoodIn wsX7_has wsX7_setAt := goodIn_ca (goodIn_r _ [5, 6, 7, 8, 24, 25, 26, 27, 28, 29, 30, 31] (by decide +kernel) (by decide +kernel)) (goodIn_sub (fun _ h => List.mem_cons_of_mem _ (List.mem_append_left _ (List.mem_append_right _ h))) (by decide +kernel))
set_option maxRecDepth 20000 in
theorem gX7_has_X7_setAt : GoodIn wsX7_has (wsV RX7 62 RX7 yX7_setAt wsX7_setAt) := goodIn_app (goodIn_of _ (by decide +kernel)) ggX7_has_X7_setAt
set_option maxRecDepth 20000 in
theorem ggX7_has_X7_indexOfMember : GoodIn wsX7_has wsX7_indexOfMember := goodIn_ca (goodIn_r _ [11, 12, 13, 14, 15, 4, 16] (by decide +kernel) (by decide +kernel)) (goodIn_sub (fun _ h => List.mem_cons_of_mem _ (List.mem_append_right _ h)) (by decide +kernel))
set_option maxRecDepth 20000 in
theorem gX7_has_X7_indexOfMember : GoodIn wsX7_has (va_wsS RX7 66 yX7_indexOfMember wsX7_indexOfMember) := goodIn_app (goodIn_of _ (by decide +kernel)) ggX7_has_X7_indexOfMember
set_option maxRecDepth 20000 in
theorem ggX7_has_X2_holds : GoodIn wsX7_has wsX2_holds := goodIn_r _ [21, 22, 23, 32, 33] (by decide +kernel) (by decide +kernel)
set_option maxRecDepth 20000 in
theorem gX7_has_X2_holds : GoodIn wsX7_has (wsV RX7 77 RX2 yX2_holds wsX2_holds) := goodIn_app (goodIn_of _ (by decide +kernel)) ggX7_has_X2_holds
theorem dX7_has_0 : decode cX7_has 0 = .ok (.aload_n 0, 1) := by decide +kernel
theorem dX7_has_1 : decode cX7_has 1 = .ok (.iload_n 1, 1) := by decide +kernel
theorem dX7_has_2 : decode cX7_has 2 = .ok (.invokevirtual 62, 3) := by decide +kernel
theorem dX7_has_5 : decode cX7_has 5 = .ok (.astore_n 3, 1) := by decide +kernel
theorem dX7_has_6 : decode cX7_has 6 = .ok (.aload_n 3, 1) := by decide +kernel
theorem dX7_has_7 : decode cX7_has 7 = .ok (.iload_n 2, 1) := by decide +kernel
theorem dX7_has_8 : decode cX7_has 8 = .ok (.invokestatic 66, 3) := by decide +kernel
theorem dX7_has_11 : decode cX7_has 11 = .ok (.invokevirtual 77, 3) := by decide +kernel
theorem dX7_has_14 : decode cX7_has 14 = .ok (.ireturn, 1) := by decide +kernel
set_option maxRecDepth 20000 in
theorem ggX7_size_X7_setAt : GoodIn wsX7_size wsX7_setAt := goodIn_ca (goodIn_r _ [5, 6, 7, 8, 23, 24, 25, 26, 27, 28, 29, 30] (by decide +kernel) (by decide +kernel)) (goodIn_sub (fun _ h => List.mem_cons_of_mem _ (List.mem_append_right _ h)) (by decide +kernel))
set_option maxRecDepth 20000 in
theorem gX7_size_X7_setAt : GoodIn wsX7_size (wsV RX7 62 RX7 yX7_setAt wsX7_setAt) := goodIn_app (goodIn_of _ (by decide +kernel)) ggX7_size_X7_setAt
set_option maxRecDepth 20000 in
theorem ggX7_size_X2_count : GoodIn wsX7_size wsX2_count := goodIn_r _ [13, 14, 15, 16, 17, 18, 19, 20, 21, 22, 31, 32] (by decide +kernel) (by decide +kernel)
set_option maxRecDepth 20000 in
theorem gX7_size_X2_count : GoodIn wsX7_size (wsV RX7 80 RX2 yX2_count wsX2_count) := goodIn_app (goodIn_of _ (by decide +kernel)) ggX7_size_X2_count
theorem dX7_size_0 : decode cX7_size 0 = .ok (.aload_n 0, 1) := by decide +kernel
theorem dX7_size_1 : decode cX7_size 1 = .ok (.iload_n 1, 1) := by decide +kernel
theorem dX7_size_2 : decode cX7_size 2 = .ok (.invokevirtual 62, 3) := by decide +kernel
theorem dX7_size_5 : decode cX7_size 5 = .ok (.invokevirtual 80, 3) := by decide +kernel
theorem dX7_size_8 : decode cX7_size 8 = .ok (.ireturn, 1) := by decide +kernel
set_option maxRecDepth 20000 in
theorem ggX7_sum_X7_setAt : GoodIn wsX7_sum wsX7_setAt := goodIn_ca (goodIn_r _ [5, 6, 7, 8, 20, 21, 22, 23, 24, 25, 26, 27] (by decide +kernel) (by decide +kernel)) (goodIn_sub (fun _ h => List.mem_cons_of_mem _ (List.mem_append_right _ h)) (by decide +kernel))
set_option maxRecDepth 20000 in
theorem gX7_sum_X7_setAt : GoodIn wsX7_sum (wsV RX7 62 RX7 yX7_setAt wsX7_setAt) := goodIn_app (goodIn_of _ (by decide +kernel)) ggX7_sum_X7_setAt
set_option maxRecDepth 20000 in
theorem ggX7_sum_X2_total : GoodIn wsX7_sum wsX2_total := goodIn_r _ [13, 14, 15, 16, 12, 17, 18, 19, 28, 29] (by decide +kernel) (by decide +kernel)
set_option maxRecDepth 20000 in
theorem gX7_sum_X2_total : GoodIn wsX7_sum (wsV RX7 84 RX2 yX2_total wsX2_total) := goodIn_app (goodIn_of _ (by decide +kernel)) ggX7_sum_X2_total
theorem dX7_sum_0 : decode cX7_sum 0 = .ok (.aload_n 0, 1) := by decide +kernel
theorem dX7_sum_1 : decode cX7_sum 1 = .ok (.iload_n 1, 1) := by decide +kernel
theorem dX7_sum_2 : decode cX7_sum 2 = .ok (.invokevirtual 62, 3) := by decide +kernel
theorem dX7_sum_5 : decode cX7_sum 5 = .ok (.invokevirtual 84, 3) := by decide +kernel
theorem dX7_sum_8 : decode cX7_sum 8 = .ok (.ireturn, 1) := by decide +kernel
set_option maxRecDepth 20000 in
theorem ggX7_clear_X7_setAt : GoodIn wsX7_clear wsX7_setAt := goodIn_ca (goodIn_r _ [5, 6, 7, 8, 27, 28, 29, 30, 31, 32, 33, 34] (by decide +kernel) (by decide +kernel)) (goodIn_sub (fun _ h => List.mem_cons_of_mem _ (List.mem_append_right _ h)) (by decide +kernel))
set_option maxRecDepth 20000 in
theorem gX7_clear_X7_setAt : GoodIn wsX7_clear (wsV RX7 62 RX7 yX7_setAt wsX7_setAt) := goodIn_app (goodIn_of _ (by decide +kernel)) ggX7_clear_X7_setAt
set_option maxRecDepth 20000 in
theorem ggX7_clear_X2_count : GoodIn wsX7_clear wsX2_count := goodIn_r _ [13, 14, 15, 16, 17, 18, 19, 20, 21, 22, 35, 36] (by decide +kernel) (by decide +kernel)
set_option maxRecDepth 20000 in
theorem gX7_clear_X2_count : GoodIn wsX7_clear (wsV RX7 80 RX2 yX2_count wsX2_count) := goodIn_app (goodIn_of _ (by decide +kernel)) ggX7_clear_X2_count
set_option maxRecDepth 20000 in
theorem ggX7_clear_X2_empty : GoodIn wsX7_clear wsX2_empty := goodIn_r _ [26, 14, 15, 35, 36] (by decide +kernel) (by decide +kernel)
set_option maxRecDepth 20000 in
theorem gX7_clear_X2_empty : GoodIn wsX7_clear (wsV RX7 87 RX2 yX2_empty wsX2_empty) := goodIn_app (goodIn_of _ (by decide +kernel)) ggX7_clear_X2_empty
theorem dX7_clear_0 : decode cX7_clear 0 = .ok (.aload_n 0, 1) := by decide +kernel
theorem dX7_clear_1 : decode cX7_clear 1 = .ok (.iload_n 1, 1) := by decide +kernel
theorem dX7_clear_2 : decode cX7_clear 2 = .ok (.invokevirtual 62, 3) := by decide +kernel
theorem dX7_clear_5 : decode cX7_clear 5 = .ok (.astore_n 2, 1) := by decide +kernel
theorem dX7_clear_6 : decode cX7_clear 6 = .ok (.aload_n 2, 1) := by decide +kernel
theorem dX7_clear_7 : decode cX7_clear 7 = .ok (.invokevirtual 80, 3) := by decide +kernel
theorem dX7_clear_10 : decode cX7_clear 10 = .ok (.istore_n 3, 1) := by decide +kernel
theorem dX7_clear_11 : decode cX7_clear 11 = .ok (.aload_n 2, 1) := by decide +kernel
theorem dX7_clear_12 : decode cX7_clear 12 = .ok (.invokevirtual 87, 3) := by decide +kernel
theorem dX7_clear_15 : decode cX7_clear 15 = .ok (.iload_n 3, 1) := by decide +kernel
theorem dX7_clear_16 : decode cX7_clear 16 = .ok (.ireturn, 1) := by decide +kernel
set_option maxRecDepth 20000 in
theorem ggX7_fill_X7_setAt : GoodIn wsX7_fill wsX7_setAt := goodIn_ca (goodIn_r _ [5, 6, 7, 8, 43, 44, 45, 46, 47, 48, 49, 50] (by decide +kernel) (by decide +kernel)) (goodIn_sub (fun _ h => List.mem_cons_of_mem _ (List.mem_append_left _ (List.mem_append_right _ h))) (by decide +kernel))
set_option maxRecDepth 20000 in
theorem gX7_fill_X7_setAt : GoodIn wsX7_fill (wsV RX7 62 RX7 yX7_setAt wsX7_setAt) := goodIn_app (goodIn_of _ (by decide +kernel)) ggX7_fill_X7_setAt
set_option maxRecDepth 20000 in
theorem ggX7_fill_X7_checkRange : GoodIn wsX7_fill wsX7_checkRange := goodIn_ca (goodIn_r _ [11, 12, 13] (by decide +kernel) (by decide +kernel)) (goodIn_sub (fun _ h => List.mem_cons_of_mem _ (List.mem_append_right _ h)) (by decide +kernel))
set_option maxRecDepth 20000 in
theorem gX7_fill_X7_checkRange : GoodIn wsX7_fill (va_wsS RX7 90 yX7_checkRange wsX7_checkRange) := goodIn_app (goodIn_of _ (by decide +kernel)) ggX7_fill_X7_checkRange
set_option maxRecDepth 20000 in
theorem ggX7_fill_X2_count : GoodIn wsX7_fill wsX2_count := goodIn_r _ [18, 19, 20, 21, 22, 23, 24, 25, 26, 27, 51, 52] (by decide +kernel) (by decide +kernel)
set_option maxRecDepth 20000 in
theorem gX7_fill_X2_count : GoodIn wsX7_fill (wsV RX7 80 RX2 yX2_count wsX2_count) := goodIn_app (goodIn_of _ (by decide +kernel)) ggX7_fill_X2_count
set_option maxRecDepth 20000 in
theorem ggX7_fill_X7_isNumber : GoodIn wsX7_fill wsX7_isNumber := goodIn_r _ [30] (by decide +kernel) (by decide +kernel)
set_option maxRecDepth 20000 in
theorem gX7_fill_X7_isNumber : GoodIn wsX7_fill (va_wsS RX7 94 yX7_isNumber wsX7_isNumber) := goodIn_app (goodIn_of _ (by decide +kernel)) ggX7_fill_X7_isNumber
set_option maxRecDepth 20000 in
theorem ggX7_fill_X2_put : GoodIn wsX7_fill wsX2_put := goodIn_r _ [34, 35, 36, 37, 17, 38, 19, 20, 39, 40, 41, 42, 51, 52] (by decide +kernel) (by decide +kernel)
set_option maxRecDepth 20000 in
theorem gX7_fill_X2_put : GoodIn wsX7_fill (wsV RX7 70 RX2 yX2_put wsX2_put) := goodIn_app (goodIn_of _ (by decide +kernel)) ggX7_fill_X2_put
theorem dX7_fill_0 : decode cX7_fill 0 = .ok (.aload_n 0, 1) := by decide +kernel
theorem dX7_fill_1 : decode cX7_fill 1 = .ok (.iload_n 1, 1) := by decide +kernel
theorem dX7_fill_2 : decode cX7_fill 2 = .ok (.invokevirtual 62, 3) := by decide +kernel
theorem dX7_fill_5 : decode cX7_fill 5 = .ok (.astore 5, 2) := by decide +kernel
theorem dX7_fill_7 : decode cX7_fill 7 = .ok (.iload_n 2, 1) := by decide +kernel
theorem dX7_fill_8 : decode cX7_fill 8 = .ok (.bipush (-50), 2) := by decide +kernel
theorem dX7_fill_10 : decode cX7_fill 10 = .ok (.bipush 50, 2) := by decide +kernel
theorem dX7_fill_12 : decode cX7_fill 12 = .ok (.invokestatic 90, 3) := by decide +kernel
theorem dX7_fill_15 : decode cX7_fill 15 = .ok (.iload_n 3, 1) := by decide +kernel
theorem dX7_fill_16 : decode cX7_fill 16 = .ok (.bipush (-100), 2) := by decide +kernel
theorem dX7_fill_18 : decode cX7_fill 18 = .ok (.bipush 100, 2) := by decide +kernel
theorem dX7_fill_20 : decode cX7_fill 20 = .ok (.invokestatic 90, 3) := by decide +kernel
theorem dX7_fill_23 : decode cX7_fill 23 = .ok (.iload 4, 2) := by decide +kernel
theorem dX7_fill_25 : decode cX7_fill 25 = .ok (.iconst 0, 1) := by decide +kernel
theorem dX7_fill_26 : decode cX7_fill 26 = .ok (.bipush 101, 2) := by decide +kernel
theorem dX7_fill_28 : decode cX7_fill 28 = .ok (.invokestatic 90, 3) := by decide +kernel
theorem dX7_fill_31 : decode cX7_fill 31 = .ok (.aload 5, 2) := by decide +kernel
theorem dX7_fill_33 : decode cX7_fill 33 = .ok (.invokevirtual 80, 3) := by decide +kernel
theorem dX7_fill_36 : decode cX7_fill 36 = .ok (.istore 6, 2) := by decide +kernel
theorem dX7_fill_38 : decode cX7_fill 38 = .ok (.iconst 0, 1) := by decide +kernel
theorem dX7_fill_39 : decode cX7_fill 39 = .ok (.istore 7, 2) := by decide +kernel
theorem dX7_fill_41 : decode cX7_fill 41 = .ok (.iload 7, 2) := by decide +kernel
theorem dX7_fill_43 : decode cX7_fill 43 = .ok (.iload 4, 2) := by decide +kernel
theorem dX7_fill_45 : decode cX7_fill 45 = .ok (.if_icmp .ge 36, 3) := by decide +kernel
theorem dX7_fill_48 : decode cX7_fill 48 = .ok (.iload_n 2, 1) := by decide +kernel
theorem dX7_fill_49 : decode cX7_fill 49 = .ok (.iload 7, 2) := by decide +kernel
theorem dX7_fill_51 : decode cX7_fill 51 = .ok (.iload_n 3, 1) := by decide +kernel
theorem dX7_fill_52 : decode cX7_fill 52 = .ok (.imul, 1) := by decide +kernel
theorem dX7_fill_53 : decode cX7_fill 53 = .ok (.iadd, 1) := by decide +kernel
theorem dX7_fill_54 : decode cX7_fill 54 = .ok (.istore 8, 2) := by decide +kernel
theorem dX7_fill_56 : decode cX7_fill 56 = .ok (.iload 8, 2) := by decide +kernel
theorem dX7_fill_58 : decode cX7_fill 58 = .ok (.invokestatic 94, 3) := by decide +kernel
theorem dX7_fill_61 : decode cX7_fill 61 = .ok (.ifCond .eq 14, 3) := by decide +kernel
theorem dX7_fill_64 : decode cX7_fill 64 = .ok (.aload 5, 2) := by decide +kernel
theorem dX7_fill_66 : decode cX7_fill 66 = .ok (.iload 8, 2) := by decide +kernel
theorem dX7_fill_68 : decode cX7_fill 68 = .ok (.bipush 51, 2) := by decide +kernel
theorem dX7_fill_70 : decode cX7_fill 70 = .ok (.iadd, 1) := by decide +kernel
theorem dX7_fill_71 : decode cX7_fill 71 = .ok (.invokevirtual 70, 3) := by decide +kernel
theorem dX7_fill_74 : decode cX7_fill 74 = .ok (.pop, 1) := by decide +kernel
theorem dX7_fill_75 : decode cX7_fill 75 = .ok (.iinc 7 1, 3) := by decide +kernel
theorem dX7_fill_78 : decode cX7_fill 78 = .ok (.goto (-37), 3) := by decide +kernel
theorem dX7_fill_81 : decode cX7_fill 81 = .ok (.aload 5, 2) := by decide +kernel
theorem dX7_fill_83 : decode cX7_fill 83 = .ok (.invokevirtual 80, 3) := by decide +kernel
theorem dX7_fill_86 : decode cX7_fill 86 = .ok (.iload 6, 2) := by decide +kernel
theorem dX7_fill_88 : decode cX7_fill 88 = .ok (.isub, 1) := by decide +kernel
theorem dX7_fill_89 : decode cX7_fill 89 = .ok (.ireturn, 1) := by decide +kernel
set_option maxRecDepth 20000 in
theorem ggX7_memberAt_X7_setAt : GoodIn wsX7_memberAt wsX7_setAt := goodIn_ca (goodIn_r _ [7, 8, 9, 10, 25, 26, 27, 28, 29, 30, 31, 32] (by decide +kernel) (by decide +kernel)) (goodIn_sub (fun _ h => List.mem_cons_of_mem _ (List.mem_append_right _ h)) (by decide +kernel))
set_option maxRecDepth 20000 in
theorem gX7_memberAt_X7_setAt : GoodIn wsX7_memberAt (wsV RX7 62 RX7 yX7_setAt wsX7_setAt) := goodIn_app (goodIn_of _ (by decide +kernel)) ggX7_memberAt_X7_setAt
set_option maxRecDepth 20000 in
theorem ggX7_memberAt_X2_indexAt : GoodIn wsX7_memberAt wsX2_indexAt := goodIn_r _ [15, 16, 17, 18, 14, 19, 20, 21, 33, 34] (by decide +kernel) (by decide +kernel)
set_option maxRecDepth 20000 in
theorem gX7_memberAt_X2_indexAt : GoodIn wsX7_memberAt (wsV RX7 97 RX2 yX2_indexAt wsX2_indexAt) := goodIn_app (goodIn_of _ (by decide +kernel)) ggX7_memberAt_X2_indexAt
set_option maxRecDepth 20000 in
theorem ggX7_memberAt_X7_memberOfIndex : GoodIn wsX7_memberAt wsX7_memberOfIndex := goodIn_r _ [24] (by decide +kernel) (by decide +kernel)
set_option maxRecDepth 20000 in
theorem gX7_memberAt_X7_memberOfIndex : GoodIn wsX7_memberAt (va_wsS RX7 107 yX7_memberOfIndex wsX7_memberOfIndex) := goodIn_app (goodIn_of _ (by decide +kernel)) ggX7_memberAt_X7_memberOfIndex
theorem dX7_memberAt_0 : decode cX7_memberAt 0 = .ok (.aload_n 0, 1) := by decide +kernel
theorem dX7_memberAt_1 : decode cX7_memberAt 1 = .ok (.iload_n 1, 1) := by decide +kernel
theorem dX7_memberAt_2 : decode cX7_memberAt 2 = .ok (.invokevirtual 62, 3) := by decide +kernel
theorem dX7_memberAt_5 : decode cX7_memberAt 5 = .ok (.iload_n 2, 1) := by decide +kernel
theorem dX7_memberAt_6 : decode cX7_memberAt 6 = .ok (.invokevirtual 97, 3) := by decide +kernel
theorem dX7_memberAt_9 : decode cX7_memberAt 9 = .ok (.istore_n 3, 1) := by decide +kernel
theorem dX7_memberAt_10 : decode cX7_memberAt 10 = .ok (.iload_n 3, 1) := by decide +kernel
theorem dX7_memberAt_11 : decode cX7_memberAt 11 = .ok (.iconst (-1), 1) := by decide +kernel
theorem dX7_memberAt_12 : decode cX7_memberAt 12 = .ok (.if_icmp .ne 13, 3) := by decide +kernel
theorem dX7_memberAt_15 : decode cX7_memberAt 15 = .ok (.new 100, 3) := by decide +kernel
theorem dX7_memberAt_18 : decode cX7_memberAt 18 = .ok (.dup, 1) := by decide +kernel
theorem dX7_memberAt_19 : decode cX7_memberAt 19 = .ok (.ldc 102, 2) := by decide +kernel
theorem dX7_memberAt_21 : decode cX7_memberAt 21 = .ok (.invokespecial 104, 3) := by decide +kernel
theorem dX7_memberAt_24 : decode cX7_memberAt 24 = .ok (.athrow, 1) := by decide +kernel
theorem dX7_memberAt_25 : decode cX7_memberAt 25 = .ok (.iload_n 3, 1) := by decide +kernel
theorem dX7_memberAt_26 : decode cX7_memberAt 26 = .ok (.invokestatic 107, 3) := by decide +kernel
theorem dX7_memberAt_29 : decode cX7_memberAt 29 = .ok (.ireturn, 1) := by decide +kernel
set_option maxRecDepth 20000 in
theorem ggX7_least_X7_setAt : GoodIn wsX7_least wsX7_setAt := goodIn_ca (goodIn_r _ [5, 6, 7, 8, 25, 26, 27, 28, 29, 30, 31, 32] (by decide +kernel) (by decide +kernel)) (goodIn_sub (fun _ h => List.mem_cons_of_mem _ (List.mem_append_left _ (List.mem_append_right _ h))) (by decide +kernel))
set_option maxRecDepth 20000 in
theorem gX7_least_X7_setAt : GoodIn wsX7_least (wsV RX7 62 RX7 yX7_setAt wsX7_setAt) := goodIn_app (goodIn_of _ (by decide +kernel)) ggX7_least_X7_setAt
set_option maxRecDepth 20000 in
theorem ggX7_least_X2_firstNumber : GoodIn wsX7_least wsX2_firstNumber := goodIn_r _ [13, 14, 15, 16, 12, 17, 18, 19, 33, 34] (by decide +kernel) (by decide +kernel)
set_option maxRecDepth 20000 in
theorem gX7_least_X2_firstNumber : GoodIn wsX7_least (wsV RX7 110 RX2 yX2_firstNumber wsX2_firstNumber) := goodIn_app (goodIn_of _ (by decide +kernel)) ggX7_least_X2_firstNumber
set_option maxRecDepth 20000 in
theorem ggX7_least_X7_numberOf : GoodIn wsX7_least wsX7_numberOf := goodIn_ca (goodIn_r _ [22, 23, 24] (by decide +kernel) (by decide +kernel)) (goodIn_sub (fun _ h => List.mem_cons_of_mem _ (List.mem_append_right _ h)) (by decide +kernel))
set_option maxRecDepth 20000 in
theorem gX7_least_X7_numberOf : GoodIn wsX7_least (va_wsS RX7 113 yX7_numberOf wsX7_numberOf) := goodIn_app (goodIn_of _ (by decide +kernel)) ggX7_least_X7_numberOf
theorem dX7_least_0 : decode cX7_least 0 = .ok (.aload_n 0, 1) := by decide +kernel
theorem dX7_least_1 : decode cX7_least 1 = .ok (.iload_n 1, 1) := by decide +kernel
theorem dX7_least_2 : decode cX7_least 2 = .ok (.invokevirtual 62, 3) := by decide +kernel
theorem dX7_least_5 : decode cX7_least 5 = .ok (.invokevirtual 110, 3) := by decide +kernel
theorem dX7_least_8 : decode cX7_least 8 = .ok (.invokestatic 113, 3) := by decide +kernel
theorem dX7_least_11 : decode cX7_least 11 = .ok (.ireturn, 1) := by decide +kernel
set_option maxRecDepth 20000 in
theorem ggX7_greatest_X7_setAt : GoodIn wsX7_greatest wsX7_setAt := goodIn_ca (goodIn_r _ [5, 6, 7, 8, 25, 26, 27, 28, 29, 30, 31, 32] (by decide +kernel) (by decide +kernel)) (goodIn_sub (fun _ h => List.mem_cons_of_mem _ (List.mem_append_left _ (List.mem_append_right _ h))) (by decide +kernel))
set_option maxRecDepth 20000 in
theorem gX7_greatest_X7_setAt : GoodIn wsX7_greatest (wsV RX7 62 RX7 yX7_setAt wsX7_setAt) := goodIn_app (goodIn_of _ (by decide +kernel)) ggX7_greatest_X7_setAt
set_option maxRecDepth 20000 in
theorem ggX7_greatest_X2_lastNumber : GoodIn wsX7_greatest wsX2_lastNumber := goodIn_r _ [13, 14, 15, 16, 12, 17, 18, 19, 33, 34] (by decide +kernel) (by decide +kernel)
set_option maxRecDepth 20000 in
theorem gX7_greatest_X2_lastNumber : GoodIn wsX7_greatest (wsV RX7 116 RX2 yX2_lastNumber wsX2_lastNumber) := goodIn_app (goodIn_of _ (by decide +kernel)) ggX7_greatest_X2_lastNumber
set_option maxRecDepth 20000 in
theorem ggX7_greatest_X7_numberOf : GoodIn wsX7_greatest wsX7_numberOf := goodIn_ca (goodIn_r _ [22, 23, 24] (by decide +kernel) (by decide +kernel)) (goodIn_sub (fun _ h => List.mem_cons_of_mem _ (List.mem_append_right _ h)) (by decide +kernel))
set_option maxRecDepth 20000 in
theorem gX7_greatest_X7_numberOf : GoodIn wsX7_greatest (va_wsS RX7 113 yX7_numberOf wsX7_numberOf) := goodIn_app (goodIn_of _ (by decide +kernel)) ggX7_greatest_X7_numberOf
theorem dX7_greatest_0 : decode cX7_greatest 0 = .ok (.aload_n 0, 1) := by decide +kernel
theorem dX7_greatest_1 : decode cX7_greatest 1 = .ok (.iload_n 1, 1) := by decide +kernel
theorem dX7_greatest_2 : decode cX7_greatest 2 = .ok (.invokevirtual 62, 3) := by decide +kernel
theorem dX7_greatest_5 : decode cX7_greatest 5 = .ok (.invokevirtual 116, 3) := by decide +kernel
theorem dX7_greatest_8 : decode cX7_greatest 8 = .ok (.invokestatic 113, 3) := by decide +kernel
theorem dX7_greatest_11 : decode cX7_greatest 11 = .ok (.ireturn, 1) := by decide +kernel
set_option maxRecDepth 20000 in
theorem ggX7_unite_X7_setAt : GoodIn wsX7_unite wsX7_setAt := goodIn_ca (goodIn_r _ [5, 6, 7, 8, 19, 20, 21, 22, 23, 24, 25, 26] (by decide +kernel) (by decide +kernel)) (goodIn_sub (fun _ h => List.mem_cons_of_mem _ (List.mem_append_left _ (List.mem_append_right _ h))) (by decide +kernel))
set_option maxRecDepth 20000 in
theorem gX7_unite_X7_setAt : GoodIn wsX7_unite (wsV RX7 62 RX7 yX7_setAt wsX7_setAt) := goodIn_app (goodIn_of _ (by decide +kernel)) ggX7_unite_X7_setAt
set_option maxRecDepth 20000 in
theorem ggX7_unite_X2_combine : GoodIn wsX7_unite wsX2_combine := goodIn_ca (goodIn_r _ [13, 14, 15, 16, 17, 18, 27, 28] (by decide +kernel) (by decide +kernel)) (goodIn_sub (fun _ h => List.mem_cons_of_mem _ (List.mem_append_right _ h)) (by decide +kernel))
set_option maxRecDepth 20000 in
theorem gX7_unite_X2_combine : GoodIn wsX7_unite (wsV RX7 119 RX2 yX2_combine wsX2_combine) := goodIn_app (goodIn_of _ (by decide +kernel)) ggX7_unite_X2_combine
theorem dX7_unite_0 : decode cX7_unite 0 = .ok (.aload_n 0, 1) := by decide +kernel
theorem dX7_unite_1 : decode cX7_unite 1 = .ok (.iload_n 1, 1) := by decide +kernel
theorem dX7_unite_2 : decode cX7_unite 2 = .ok (.invokevirtual 62, 3) := by decide +kernel
theorem dX7_unite_5 : decode cX7_unite 5 = .ok (.iconst 0, 1) := by decide +kernel
theorem dX7_unite_6 : decode cX7_unite 6 = .ok (.aload_n 0, 1) := by decide +kernel
theorem dX7_unite_7 : decode cX7_unite 7 = .ok (.iload_n 2, 1) := by decide +kernel
theorem dX7_unite_8 : decode cX7_unite 8 = .ok (.invokevirtual 62, 3) := by decide +kernel
theorem dX7_unite_11 : decode cX7_unite 11 = .ok (.invokevirtual 119, 3) := by decide +kernel
theorem dX7_unite_14 : decode cX7_unite 14 = .ok (.ireturn, 1) := by decide +kernel
set_option maxRecDepth 20000 in
theorem ggX7_meet_X7_setAt : GoodIn wsX7_meet wsX7_setAt := goodIn_ca (goodIn_r _ [5, 6, 7, 8, 19, 20, 21, 22, 23, 24, 25, 26] (by decide +kernel) (by decide +kernel)) (goodIn_sub (fun _ h => List.mem_cons_of_mem _ (List.mem_append_left _ (List.mem_append_right _ h))) (by decide +kernel))
set_option maxRecDepth 20000 in
theorem gX7_meet_X7_setAt : GoodIn wsX7_meet (wsV RX7 62 RX7 yX7_setAt wsX7_setAt) := goodIn_app (goodIn_of _ (by decide +kernel)) ggX7_meet_X7_setAt
set_option maxRecDepth 20000 in
theorem ggX7_meet_X2_combine : GoodIn wsX7_meet wsX2_combine := goodIn_ca (goodIn_r _ [13, 14, 15, 16, 17, 18, 27, 28] (by decide +kernel) (by decide +kernel)) (goodIn_sub (fun _ h => List.mem_cons_of_mem _ (List.mem_append_right _ h)) (by decide +kernel))
set_option maxRecDepth 20000 in
theorem gX7_meet_X2_combine : GoodIn wsX7_meet (wsV RX7 119 RX2 yX2_combine wsX2_combine) := goodIn_app (goodIn_of _ (by decide +kernel)) ggX7_meet_X2_combine
theorem dX7_meet_0 : decode cX7_meet 0 = .ok (.aload_n 0, 1) := by decide +kernel
theorem dX7_meet_1 : decode cX7_meet 1 = .ok (.iload_n 1, 1) := by decide +kernel
theorem dX7_meet_2 : decode cX7_meet 2 = .ok (.invokevirtual 62, 3) := by decide +kernel
theorem dX7_meet_5 : decode cX7_meet 5 = .ok (.iconst 1, 1) := by decide +kernel
theorem dX7_meet_6 : decode cX7_meet 6 = .ok (.aload_n 0, 1) := by decide +kernel
theorem dX7_meet_7 : decode cX7_meet 7 = .ok (.iload_n 2, 1) := by decide +kernel
theorem dX7_meet_8 : decode cX7_meet 8 = .ok (.invokevirtual 62, 3) := by decide +kernel
theorem dX7_meet_11 : decode cX7_meet 11 = .ok (.invokevirtual 119, 3) := by decide +kernel
theorem dX7_meet_14 : decode cX7_meet 14 = .ok (.ireturn, 1) := by decide +kernel
set_option maxRecDepth 20000 in
theorem ggX7_without_X7_setAt : GoodIn wsX7_without wsX7_setAt := goodIn_ca (goodIn_r _ [5, 6, 7, 8, 19, 20, 21, 22, 23, 24, 25, 26] (by decide +kernel) (by decide +kernel)) (goodIn_sub (fun _ h => List.mem_cons_of_mem _ (List.mem_append_left _ (List.mem_append_right _ h))) (by decide +kernel))
set_option maxRecDepth 20000 in
theorem gX7_without_X7_setAt : GoodIn wsX7_without (wsV RX7 62 RX7 yX7_setAt wsX7_setAt) := goodIn_app (goodIn_of _ (by decide +kernel)) ggX7_without_X7_setAt
set_option maxRecDepth 20000 in
theorem ggX7_without_X2_combine : GoodIn wsX7_without wsX2_combine := goodIn_ca (goodIn_r _ [13, 14, 15, 16, 17, 18, 27, 28] (by decide +kernel) (by decide +kernel)) (goodIn_sub (fun _ h => List.mem_cons_of_mem _ (List.mem_append_right _ h)) (by decide +kernel))
set_option maxRecDepth 20000 in
theorem gX7_without_X2_combine : GoodIn wsX7_without (wsV RX7 119 RX2 yX2_combine wsX2_combine) := goodIn_app (goodIn_of _ (by decide +kernel)) ggX7_without_X2_combine
theorem dX7_without_0 : decode cX7_without 0 = .ok (.aload_n 0, 1) := by decide +kernel
theorem dX7_without_1 : decode cX7_without 1 = .ok (.iload_n 1, 1) := by decide +kernel
theorem dX7_without_2 : decode cX7_without 2 = .ok (.invokevirtual 62, 3) := by decide +kernel
theorem dX7_without_5 : decode cX7_without 5 = .ok (.iconst 2, 1) := by decide +kernel
theorem dX7_without_6 : decode cX7_without 6 = .ok (.aload_n 0, 1) := by decide +kernel
theorem dX7_without_7 : decode cX7_without 7 = .ok (.iload_n 2, 1) := by decide +kernel
theorem dX7_without_8 : decode cX7_without 8 = .ok (.invokevirtual 62, 3) := by decide +kernel
theorem dX7_without_11 : decode cX7_without 11 = .ok (.invokevirtual 119, 3) := by decide +kernel
theorem dX7_without_14 : decode cX7_without 14 = .ok (.ireturn, 1) := by decide +kernel
set_option maxRecDepth 20000 in
theorem ggX7_copy_X7_setAt : GoodIn wsX7_copy wsX7_setAt := goodIn_ca (goodIn_r _ [5, 6, 7, 8, 27, 28, 29, 30, 31, 32, 33, 34] (by decide +kernel) (by decide +kernel)) (goodIn_sub (fun _ h => List.mem_cons_of_mem _ (List.mem_append_right _ h)) (by decide +kernel))
set_option maxRecDepth 20000 in
theorem gX7_copy_X7_setAt : GoodIn wsX7_copy (wsV RX7 62 RX7 yX7_setAt wsX7_setAt) := goodIn_app (goodIn_of _ (by decide +kernel)) ggX7_copy_X7_setAt
set_option maxRecDepth 20000 in
theorem ggX7_copy_X2_become : GoodIn wsX7_copy wsX2_become := goodIn_r _ [13, 14, 15, 35, 36] (by decide +kernel) (by decide +kernel)
set_option maxRecDepth 20000 in
theorem gX7_copy_X2_become : GoodIn wsX7_copy (wsV RX7 123 RX2 yX2_become wsX2_become) := goodIn_app (goodIn_of _ (by decide +kernel)) ggX7_copy_X2_become
set_option maxRecDepth 20000 in
theorem ggX7_copy_X2_count : GoodIn wsX7_copy wsX2_count := goodIn_r _ [19, 14, 15, 20, 21, 22, 23, 24, 25, 26, 35, 36] (by decide +kernel) (by decide +kernel)
set_option maxRecDepth 20000 in
theorem gX7_copy_X2_count : GoodIn wsX7_copy (wsV RX7 80 RX2 yX2_count wsX2_count) := goodIn_app (goodIn_of _ (by decide +kernel)) ggX7_copy_X2_count
theorem dX7_copy_0 : decode cX7_copy 0 = .ok (.aload_n 0, 1) := by decide +kernel
theorem dX7_copy_1 : decode cX7_copy 1 = .ok (.iload_n 1, 1) := by decide +kernel
theorem dX7_copy_2 : decode cX7_copy 2 = .ok (.invokevirtual 62, 3) := by decide +kernel
theorem dX7_copy_5 : decode cX7_copy 5 = .ok (.astore_n 3, 1) := by decide +kernel
theorem dX7_copy_6 : decode cX7_copy 6 = .ok (.aload_n 3, 1) := by decide +kernel
theorem dX7_copy_7 : decode cX7_copy 7 = .ok (.aload_n 0, 1) := by decide +kernel
theorem dX7_copy_8 : decode cX7_copy 8 = .ok (.iload_n 2, 1) := by decide +kernel
theorem dX7_copy_9 : decode cX7_copy 9 = .ok (.invokevirtual 62, 3) := by decide +kernel
theorem dX7_copy_12 : decode cX7_copy 12 = .ok (.invokevirtual 123, 3) := by decide +kernel
theorem dX7_copy_15 : decode cX7_copy 15 = .ok (.aload_n 3, 1) := by decide +kernel
theorem dX7_copy_16 : decode cX7_copy 16 = .ok (.invokevirtual 80, 3) := by decide +kernel
theorem dX7_copy_19 : decode cX7_copy 19 = .ok (.ireturn, 1) := by decide +kernel
set_option maxRecDepth 20000 in
theorem ggX7_sieve_X7_setAt : GoodIn wsX7_sieve wsX7_setAt := goodIn_ca (goodIn_r _ [5, 6, 7, 8, 44, 45, 46, 47, 48, 49, 50, 51] (by decide +kernel) (by decide +kernel)) (goodIn_sub (fun _ h => List.mem_cons_of_mem _ (List.mem_append_left _ (List.mem_append_right _ h))) (by decide +kernel))
set_option maxRecDepth 20000 in
theorem gX7_sieve_X7_setAt : GoodIn wsX7_sieve (wsV RX7 62 RX7 yX7_setAt wsX7_setAt) := goodIn_app (goodIn_of _ (by decide +kernel)) ggX7_sieve_X7_setAt
set_option maxRecDepth 20000 in
theorem ggX7_sieve_X7_checkRange : GoodIn wsX7_sieve wsX7_checkRange := goodIn_ca (goodIn_r _ [11, 12, 13] (by decide +kernel) (by decide +kernel)) (goodIn_sub (fun _ h => List.mem_cons_of_mem _ (List.mem_append_right _ h)) (by decide +kernel))
set_option maxRecDepth 20000 in
theorem gX7_sieve_X7_checkRange : GoodIn wsX7_sieve (va_wsS RX7 90 yX7_checkRange wsX7_checkRange) := goodIn_app (goodIn_of _ (by decide +kernel)) ggX7_sieve_X7_checkRange
set_option maxRecDepth 20000 in
theorem ggX7_sieve_X2_count : GoodIn wsX7_sieve wsX2_count := goodIn_r _ [18, 19, 20, 21, 22, 23, 24, 25, 26, 27, 52, 53] (by decide +kernel) (by decide +kernel)
set_option maxRecDepth 20000 in
theorem gX7_sieve_X2_count : GoodIn wsX7_sieve (wsV RX7 80 RX2 yX2_count wsX2_count) := goodIn_app (goodIn_of _ (by decide +kernel)) ggX7_sieve_X2_count
set_option maxRecDepth 20000 in
theorem ggX7_sieve_J9_floorMod_7cf53 : GoodIn wsX7_sieve wsJ9_floorMod_7cf53 := goodIn_r _ [31] (by decide +kernel) (by decide +kernel)
set_option maxRecDepth 20000 in
theorem gX7_sieve_J9_floorMod_7cf53 : GoodIn wsX7_sieve (va_wsS RX7 126 yJ9_floorMod_7cf53 wsJ9_floorMod_7cf53) := goodIn_app (goodIn_of _ (by decide +kernel)) ggX7_sieve_J9_floorMod_7cf53
set_option maxRecDepth 20000 in
theorem ggX7_sieve_X2_takeOut : GoodIn wsX7_sieve wsX2_takeOut := goodIn_r _ [35, 36, 37, 38, 17, 39, 19, 20, 40, 41, 42, 43, 52, 53] (by decide +kernel) (by decide +kernel)
set_option maxRecDepth 20000 in
theorem gX7_sieve_X2_takeOut : GoodIn wsX7_sieve (wsV RX7 74 RX2 yX2_takeOut wsX2_takeOut) := goodIn_app (goodIn_of _ (by decide +kernel)) ggX7_sieve_X2_takeOut
theorem dX7_sieve_0 : decode cX7_sieve 0 = .ok (.aload_n 0, 1) := by decide +kernel
theorem dX7_sieve_1 : decode cX7_sieve 1 = .ok (.iload_n 1, 1) := by decide +kernel
theorem dX7_sieve_2 : decode cX7_sieve 2 = .ok (.invokevirtual 62, 3) := by decide +kernel
theorem dX7_sieve_5 : decode cX7_sieve 5 = .ok (.astore 4, 2) := by decide +kernel
theorem dX7_sieve_7 : decode cX7_sieve 7 = .ok (.iload_n 2, 1) := by decide +kernel
theorem dX7_sieve_8 : decode cX7_sieve 8 = .ok (.iconst 1, 1) := by decide +kernel
theorem dX7_sieve_9 : decode cX7_sieve 9 = .ok (.bipush 100, 2) := by decide +kernel
theorem dX7_sieve_11 : decode cX7_sieve 11 = .ok (.invokestatic 90, 3) := by decide +kernel
theorem dX7_sieve_14 : decode cX7_sieve 14 = .ok (.iload_n 3, 1) := by decide +kernel
theorem dX7_sieve_15 : decode cX7_sieve 15 = .ok (.iconst 0, 1) := by decide +kernel
theorem dX7_sieve_16 : decode cX7_sieve 16 = .ok (.bipush 99, 2) := by decide +kernel
theorem dX7_sieve_18 : decode cX7_sieve 18 = .ok (.invokestatic 90, 3) := by decide +kernel
theorem dX7_sieve_21 : decode cX7_sieve 21 = .ok (.aload 4, 2) := by decide +kernel
theorem dX7_sieve_23 : decode cX7_sieve 23 = .ok (.invokevirtual 80, 3) := by decide +kernel
theorem dX7_sieve_26 : decode cX7_sieve 26 = .ok (.istore 5, 2) := by decide +kernel
theorem dX7_sieve_28 : decode cX7_sieve 28 = .ok (.bipush (-50), 2) := by decide +kernel
theorem dX7_sieve_30 : decode cX7_sieve 30 = .ok (.istore 6, 2) := by decide +kernel
theorem dX7_sieve_32 : decode cX7_sieve 32 = .ok (.iload 6, 2) := by decide +kernel
theorem dX7_sieve_34 : decode cX7_sieve 34 = .ok (.bipush 50, 2) := by decide +kernel
theorem dX7_sieve_36 : decode cX7_sieve 36 = .ok (.if_icmp .gt 30, 3) := by decide +kernel
theorem dX7_sieve_39 : decode cX7_sieve 39 = .ok (.iload 6, 2) := by decide +kernel
theorem dX7_sieve_41 : decode cX7_sieve 41 = .ok (.iload_n 2, 1) := by decide +kernel
theorem dX7_sieve_42 : decode cX7_sieve 42 = .ok (.invokestatic 126, 3) := by decide +kernel
theorem dX7_sieve_45 : decode cX7_sieve 45 = .ok (.iload_n 3, 1) := by decide +kernel
theorem dX7_sieve_46 : decode cX7_sieve 46 = .ok (.if_icmp .ne 14, 3) := by decide +kernel
theorem dX7_sieve_49 : decode cX7_sieve 49 = .ok (.aload 4, 2) := by decide +kernel
theorem dX7_sieve_51 : decode cX7_sieve 51 = .ok (.iload 6, 2) := by decide +kernel
theorem dX7_sieve_53 : decode cX7_sieve 53 = .ok (.bipush 51, 2) := by decide +kernel
theorem dX7_sieve_55 : decode cX7_sieve 55 = .ok (.iadd, 1) := by decide +kernel
theorem dX7_sieve_56 : decode cX7_sieve 56 = .ok (.invokevirtual 74, 3) := by decide +kernel
theorem dX7_sieve_59 : decode cX7_sieve 59 = .ok (.pop, 1) := by decide +kernel
theorem dX7_sieve_60 : decode cX7_sieve 60 = .ok (.iinc 6 1, 3) := by decide +kernel
theorem dX7_sieve_63 : decode cX7_sieve 63 = .ok (.goto (-31), 3) := by decide +kernel
theorem dX7_sieve_66 : decode cX7_sieve 66 = .ok (.iload 5, 2) := by decide +kernel
theorem dX7_sieve_68 : decode cX7_sieve 68 = .ok (.aload 4, 2) := by decide +kernel
theorem dX7_sieve_70 : decode cX7_sieve 70 = .ok (.invokevirtual 80, 3) := by decide +kernel
theorem dX7_sieve_73 : decode cX7_sieve 73 = .ok (.isub, 1) := by decide +kernel
theorem dX7_sieve_74 : decode cX7_sieve 74 = .ok (.ireturn, 1) := by decide +kernel
set_option maxRecDepth 20000 in
theorem ggX7_isWithin_X7_setAt : GoodIn wsX7_isWithin wsX7_setAt := goodIn_ca (goodIn_r _ [5, 6, 7, 8, 19, 20, 21, 22, 23, 24, 25, 26] (by decide +kernel) (by decide +kernel)) (goodIn_sub (fun _ h => List.mem_cons_of_mem _ (List.mem_append_left _ (List.mem_append_right _ h))) (by decide +kernel))
set_option maxRecDepth 20000 in
theorem gX7_isWithin_X7_setAt : GoodIn wsX7_isWithin (wsV RX7 62 RX7 yX7_setAt wsX7_setAt) := goodIn_app (goodIn_of _ (by decide +kernel)) ggX7_isWithin_X7_setAt
set_option maxRecDepth 20000 in
theorem ggX7_isWithin_X2_holdsAll : GoodIn wsX7_isWithin wsX2_holdsAll := goodIn_ca (goodIn_r _ [13, 14, 15, 16, 17, 18, 27, 28] (by decide +kernel) (by decide +kernel)) (goodIn_sub (fun _ h => List.mem_cons_of_mem _ (List.mem_append_right _ h)) (by decide +kernel))
set_option maxRecDepth 20000 in
theorem gX7_isWithin_X2_holdsAll : GoodIn wsX7_isWithin (wsV RX7 132 RX2 yX2_holdsAll wsX2_holdsAll) := goodIn_app (goodIn_of _ (by decide +kernel)) ggX7_isWithin_X2_holdsAll
theorem dX7_isWithin_0 : decode cX7_isWithin 0 = .ok (.aload_n 0, 1) := by decide +kernel
theorem dX7_isWithin_1 : decode cX7_isWithin 1 = .ok (.iload_n 1, 1) := by decide +kernel
theorem dX7_isWithin_2 : decode cX7_isWithin 2 = .ok (.invokevirtual 62, 3) := by decide +kernel
theorem dX7_isWithin_5 : decode cX7_isWithin 5 = .ok (.astore_n 3, 1) := by decide +kernel
theorem dX7_isWithin_6 : decode cX7_isWithin 6 = .ok (.aload_n 0, 1) := by decide +kernel
theorem dX7_isWithin_7 : decode cX7_isWithin 7 = .ok (.iload_n 2, 1) := by decide +kernel
theorem dX7_isWithin_8 : decode cX7_isWithin 8 = .ok (.invokevirtual 62, 3) := by decide +kernel
theorem dX7_isWithin_11 : decode cX7_isWithin 11 = .ok (.aload_n 3, 1) := by decide +kernel
theorem dX7_isWithin_12 : decode cX7_isWithin 12 = .ok (.invokevirtual 132, 3) := by decide +kernel
theorem dX7_isWithin_15 : decode cX7_isWithin 15 = .ok (.ireturn, 1) := by decide +kernel
set_option maxRecDepth 20000 in
theorem ggX7_isApart_X7_setAt : GoodIn wsX7_isApart wsX7_setAt := goodIn_ca (goodIn_r _ [5, 6, 7, 8, 16, 17, 18, 19, 20, 21, 22, 23] (by decide +kernel) (by decide +kernel)) (goodIn_sub (fun _ h => List.mem_cons_of_mem _ (List.mem_append_right _ h)) (by decide +kernel))
set_option maxRecDepth 20000 in
theorem gX7_isApart_X7_setAt : GoodIn wsX7_isApart (wsV RX7 62 RX7 yX7_setAt wsX7_setAt) := goodIn_app (goodIn_of _ (by decide +kernel)) ggX7_isApart_X7_setAt
set_option maxRecDepth 20000 in
theorem ggX7_isApart_X2_sharesNone : GoodIn wsX7_isApart wsX2_sharesNone := goodIn_r _ [13, 14, 15, 24, 25] (by decide +kernel) (by decide +kernel)
set_option maxRecDepth 20000 in
theorem gX7_isApart_X2_sharesNone : GoodIn wsX7_isApart (wsV RX7 136 RX2 yX2_sharesNone wsX2_sharesNone) := goodIn_app (goodIn_of _ (by decide +kernel)) ggX7_isApart_X2_sharesNone
theorem dX7_isApart_0 : decode cX7_isApart 0 = .ok (.aload_n 0, 1) := by decide +kernel
theorem dX7_isApart_1 : decode cX7_isApart 1 = .ok (.iload_n 1, 1) := by decide +kernel
theorem dX7_isApart_2 : decode cX7_isApart 2 = .ok (.invokevirtual 62, 3) := by decide +kernel
theorem dX7_isApart_5 : decode cX7_isApart 5 = .ok (.astore_n 3, 1) := by decide +kernel
theorem dX7_isApart_6 : decode cX7_isApart 6 = .ok (.aload_n 3, 1) := by decide +kernel
theorem dX7_isApart_7 : decode cX7_isApart 7 = .ok (.aload_n 0, 1) := by decide +kernel
theorem dX7_isApart_8 : decode cX7_isApart 8 = .ok (.iload_n 2, 1) := by decide +kernel
theorem dX7_isApart_9 : decode cX7_isApart 9 = .ok (.invokevirtual 62, 3) := by decide +kernel
theorem dX7_isApart_12 : decode cX7_isApart 12 = .ok (.invokevirtual 136, 3) := by decide +kernel
theorem dX7_isApart_15 : decode cX7_isApart 15 = .ok (.ireturn, 1) := by decide +kernel
set_option maxRecDepth 20000 in
theorem ggX7_isSame_X7_setAt : GoodIn wsX7_isSame wsX7_setAt := goodIn_ca (goodIn_r _ [5, 6, 7, 8, 16, 17, 18, 19, 20, 21, 22, 23] (by decide +kernel) (by decide +kernel)) (goodIn_sub (fun _ h => List.mem_cons_of_mem _ (List.mem_append_right _ h)) (by decide +kernel))
set_option maxRecDepth 20000 in
theorem gX7_isSame_X7_setAt : GoodIn wsX7_isSame (wsV RX7 62 RX7 yX7_setAt wsX7_setAt) := goodIn_app (goodIn_of _ (by decide +kernel)) ggX7_isSame_X7_setAt
set_option maxRecDepth 20000 in
theorem ggX7_isSame_X2_sameAs : GoodIn wsX7_isSame wsX2_sameAs := goodIn_r _ [13, 14, 15, 24, 25] (by decide +kernel) (by decide +kernel)
set_option maxRecDepth 20000 in
theorem gX7_isSame_X2_sameAs : GoodIn wsX7_isSame (wsV RX7 139 RX2 yX2_sameAs wsX2_sameAs) := goodIn_app (goodIn_of _ (by decide +kernel)) ggX7_isSame_X2_sameAs
theorem dX7_isSame_0 : decode cX7_isSame 0 = .ok (.aload_n 0, 1) := by decide +kernel
theorem dX7_isSame_1 : decode cX7_isSame 1 = .ok (.iload_n 1, 1) := by decide +kernel
theorem dX7_isSame_2 : decode cX7_isSame 2 = .ok (.invokevirtual 62, 3) := by decide +kernel
theorem dX7_isSame_5 : decode cX7_isSame 5 = .ok (.astore_n 3, 1) := by decide +kernel
theorem dX7_isSame_6 : decode cX7_isSame 6 = .ok (.aload_n 3, 1) := by decide +kernel
theorem dX7_isSame_7 : decode cX7_isSame 7 = .ok (.aload_n 0, 1) := by decide +kernel
theorem dX7_isSame_8 : decode cX7_isSame 8 = .ok (.iload_n 2, 1) := by decide +kernel
theorem dX7_isSame_9 : decode cX7_isSame 9 = .ok (.invokevirtual 62, 3) := by decide +kernel
theorem dX7_isSame_12 : decode cX7_isSame 12 = .ok (.invokevirtual 139, 3) := by decide +kernel
theorem dX7_isSame_15 : decode cX7_isSame 15 = .ok (.ireturn, 1) := by decide +kernel
set_option maxRecDepth 20000 in
theorem ggX7_vote_X7_indexOfMember : GoodIn wsX7_vote wsX7_indexOfMember := goodIn_ca (goodIn_r _ [4, 5, 6, 7, 8, 3, 9] (by decide +kernel) (by decide +kernel)) (goodIn_sub (fun _ h => List.mem_cons_of_mem _ (List.mem_append_right _ h)) (by decide +kernel))
set_option maxRecDepth 20000 in
theorem gX7_vote_X7_indexOfMember : GoodIn wsX7_vote (va_wsS RX7 66 yX7_indexOfMember wsX7_indexOfMember) := goodIn_app (goodIn_of _ (by decide +kernel)) ggX7_vote_X7_indexOfMember
set_option maxRecDepth 20000 in
theorem ggX7_vote_X7_votesFor : GoodIn wsX7_vote wsX7_votesFor := goodIn_r _ [13, 14, 15, 16, 17, 18, 19, 20, 21, 22, 23, 24, 25, 26, 27, 28, 29, 30, 31] (by decide +kernel) (by decide +kernel)
set_option maxRecDepth 20000 in
theorem gX7_vote_X7_votesFor : GoodIn wsX7_vote (wsV RX7 142 RX7 yX7_votesFor wsX7_votesFor) := goodIn_app (goodIn_of _ (by decide +kernel)) ggX7_vote_X7_votesFor
theorem dX7_vote_0 : decode cX7_vote 0 = .ok (.aload_n 0, 1) := by decide +kernel
theorem dX7_vote_1 : decode cX7_vote 1 = .ok (.iload_n 1, 1) := by decide +kernel
theorem dX7_vote_2 : decode cX7_vote 2 = .ok (.invokestatic 66, 3) := by decide +kernel
theorem dX7_vote_5 : decode cX7_vote 5 = .ok (.invokevirtual 142, 3) := by decide +kernel
theorem dX7_vote_8 : decode cX7_vote 8 = .ok (.ireturn, 1) := by decide +kernel
set_option maxRecDepth 20000 in
theorem ggX7_elect_X7_setAt : GoodIn wsX7_elect wsX7_setAt := goodIn_ca (goodIn_r _ [6, 7, 8, 9, 54, 55, 56, 57, 58, 59, 60, 61] (by decide +kernel) (by decide +kernel)) (goodIn_sub (fun _ h => List.mem_cons_of_mem _ (List.mem_append_left _ (List.mem_append_right _ h))) (by decide +kernel))
set_option maxRecDepth 20000 in
theorem gX7_elect_X7_setAt : GoodIn wsX7_elect (wsV RX7 62 RX7 yX7_setAt wsX7_setAt) := goodIn_app (goodIn_of _ (by decide +kernel)) ggX7_elect_X7_setAt
set_option maxRecDepth 20000 in
theorem ggX7_elect_X7_checkRange : GoodIn wsX7_elect wsX7_checkRange := goodIn_ca (goodIn_r _ [12, 13, 14] (by decide +kernel) (by decide +kernel)) (goodIn_sub (fun _ h => List.mem_cons_of_mem _ (List.mem_append_right _ h)) (by decide +kernel))
set_option maxRecDepth 20000 in
theorem gX7_elect_X7_checkRange : GoodIn wsX7_elect (va_wsS RX7 90 yX7_checkRange wsX7_checkRange) := goodIn_app (goodIn_of _ (by decide +kernel)) ggX7_elect_X7_checkRange
set_option maxRecDepth 20000 in
theorem ggX7_elect_X2_empty : GoodIn wsX7_elect wsX2_empty := goodIn_r _ [19, 20, 21, 62, 63] (by decide +kernel) (by decide +kernel)
set_option maxRecDepth 20000 in
theorem gX7_elect_X2_empty : GoodIn wsX7_elect (wsV RX7 87 RX2 yX2_empty wsX2_empty) := goodIn_app (goodIn_of _ (by decide +kernel)) ggX7_elect_X2_empty
set_option maxRecDepth 20000 in
theorem ggX7_elect_X7_votesFor : GoodIn wsX7_elect wsX7_votesFor := goodIn_r _ [25, 9, 26, 27, 28, 18, 29, 20, 21, 54, 55, 56, 57, 58, 59, 60, 61, 62, 63] (by decide +kernel) (by decide +kernel)
set_option maxRecDepth 20000 in
theorem gX7_elect_X7_votesFor : GoodIn wsX7_elect (wsV RX7 142 RX7 yX7_votesFor wsX7_votesFor) := goodIn_app (goodIn_of _ (by decide +kernel)) ggX7_elect_X7_votesFor
set_option maxRecDepth 20000 in
theorem ggX7_elect_X2_put : GoodIn wsX7_elect wsX2_put := goodIn_r _ [33, 34, 27, 28, 18, 29, 20, 21, 35, 36, 37, 38, 62, 63] (by decide +kernel) (by decide +kernel)
set_option maxRecDepth 20000 in
theorem gX7_elect_X2_put : GoodIn wsX7_elect (wsV RX7 70 RX2 yX2_put wsX2_put) := goodIn_app (goodIn_of _ (by decide +kernel)) ggX7_elect_X2_put
set_option maxRecDepth 20000 in
theorem ggX7_elect_X2_become : GoodIn wsX7_elect wsX2_become := goodIn_r _ [42, 20, 21, 62, 63] (by decide +kernel) (by decide +kernel)
set_option maxRecDepth 20000 in
theorem gX7_elect_X2_become : GoodIn wsX7_elect (wsV RX7 123 RX2 yX2_become wsX2_become) := goodIn_app (goodIn_of _ (by decide +kernel)) ggX7_elect_X2_become
set_option maxRecDepth 20000 in
theorem ggX7_elect_X2_count : GoodIn wsX7_elect wsX2_count := goodIn_r _ [46, 20, 21, 47, 48, 49, 50, 51, 52, 53, 62, 63] (by decide +kernel) (by decide +kernel)
set_option maxRecDepth 20000 in
theorem gX7_elect_X2_count : GoodIn wsX7_elect (wsV RX7 80 RX2 yX2_count wsX2_count) := goodIn_app (goodIn_of _ (by decide +kernel)) ggX7_elect_X2_count
theorem dX7_elect_0 : decode cX7_elect 0 = .ok (.aload_n 0, 1) := by decide +kernel
theorem dX7_elect_1 : decode cX7_elect 1 = .ok (.iload_n 1, 1) := by decide +kernel
theorem dX7_elect_2 : decode cX7_elect 2 = .ok (.invokevirtual 62, 3) := by decide +kernel
theorem dX7_elect_5 : decode cX7_elect 5 = .ok (.astore_n 3, 1) := by decide +kernel
theorem dX7_elect_6 : decode cX7_elect 6 = .ok (.iload_n 2, 1) := by decide +kernel
theorem dX7_elect_7 : decode cX7_elect 7 = .ok (.iconst 1, 1) := by decide +kernel
theorem dX7_elect_8 : decode cX7_elect 8 = .ok (.bipush 8, 2) := by decide +kernel
theorem dX7_elect_10 : decode cX7_elect 10 = .ok (.invokestatic 90, 3) := by decide +kernel
theorem dX7_elect_13 : decode cX7_elect 13 = .ok (.aload_n 0, 1) := by decide +kernel
theorem dX7_elect_14 : decode cX7_elect 14 = .ok (.getfield 35, 3) := by decide +kernel
theorem dX7_elect_17 : decode cX7_elect 17 = .ok (.invokevirtual 87, 3) := by decide +kernel
theorem dX7_elect_20 : decode cX7_elect 20 = .ok (.iconst 0, 1) := by decide +kernel
theorem dX7_elect_21 : decode cX7_elect 21 = .ok (.istore 4, 2) := by decide +kernel
theorem dX7_elect_23 : decode cX7_elect 23 = .ok (.iload 4, 2) := by decide +kernel
theorem dX7_elect_25 : decode cX7_elect 25 = .ok (.bipush 102, 2) := by decide +kernel
theorem dX7_elect_27 : decode cX7_elect 27 = .ok (.if_icmp .ge 29, 3) := by decide +kernel
theorem dX7_elect_30 : decode cX7_elect 30 = .ok (.aload_n 0, 1) := by decide +kernel
theorem dX7_elect_31 : decode cX7_elect 31 = .ok (.iload 4, 2) := by decide +kernel
theorem dX7_elect_33 : decode cX7_elect 33 = .ok (.invokevirtual 142, 3) := by decide +kernel
theorem dX7_elect_36 : decode cX7_elect 36 = .ok (.iload_n 2, 1) := by decide +kernel
theorem dX7_elect_37 : decode cX7_elect 37 = .ok (.if_icmp .lt 13, 3) := by decide +kernel
theorem dX7_elect_40 : decode cX7_elect 40 = .ok (.aload_n 0, 1) := by decide +kernel
theorem dX7_elect_41 : decode cX7_elect 41 = .ok (.getfield 35, 3) := by decide +kernel
theorem dX7_elect_44 : decode cX7_elect 44 = .ok (.iload 4, 2) := by decide +kernel
theorem dX7_elect_46 : decode cX7_elect 46 = .ok (.invokevirtual 70, 3) := by decide +kernel
theorem dX7_elect_49 : decode cX7_elect 49 = .ok (.pop, 1) := by decide +kernel
theorem dX7_elect_50 : decode cX7_elect 50 = .ok (.iinc 4 1, 3) := by decide +kernel
theorem dX7_elect_53 : decode cX7_elect 53 = .ok (.goto (-30), 3) := by decide +kernel
theorem dX7_elect_56 : decode cX7_elect 56 = .ok (.aload_n 3, 1) := by decide +kernel
theorem dX7_elect_57 : decode cX7_elect 57 = .ok (.aload_n 0, 1) := by decide +kernel
theorem dX7_elect_58 : decode cX7_elect 58 = .ok (.getfield 35, 3) := by decide +kernel
theorem dX7_elect_61 : decode cX7_elect 61 = .ok (.invokevirtual 123, 3) := by decide +kernel
theorem dX7_elect_64 : decode cX7_elect 64 = .ok (.aload_n 3, 1) := by decide +kernel
theorem dX7_elect_65 : decode cX7_elect 65 = .ok (.invokevirtual 80, 3) := by decide +kernel
theorem dX7_elect_68 : decode cX7_elect 68 = .ok (.ireturn, 1) := by decide +kernel
set_option maxRecDepth 20000 in
theorem ggX7_keep_X7_setAt : GoodIn wsX7_keep wsX7_setAt := goodIn_ca (goodIn_r _ [8, 9, 10, 11, 39, 40, 41, 42, 43, 44, 45, 46] (by decide +kernel) (by decide +kernel)) (goodIn_sub (fun _ h => List.mem_cons_of_mem _ (List.mem_append_right _ h)) (by decide +kernel))
set_option maxRecDepth 20000 in
theorem gX7_keep_X7_setAt : GoodIn wsX7_keep (wsV RX7 62 RX7 yX7_setAt wsX7_setAt) := goodIn_app (goodIn_of _ (by decide +kernel)) ggX7_keep_X7_setAt
set_option maxRecDepth 20000 in
theorem ggX7_keep_X0_find : GoodIn wsX7_keep wsX0_find := goodIn_r _ [16, 17, 18, 19, 20, 21, 22, 23, 24, 25, 47, 48, 49, 50, 51] (by decide +kernel) (by decide +kernel)
set_option maxRecDepth 20000 in
theorem gX7_keep_X0_find : GoodIn wsX7_keep (wsV RX7 145 RX0 yX0_find wsX0_find) := goodIn_app (goodIn_of _ (by decide +kernel)) ggX7_keep_X0_find
set_option maxRecDepth 20000 in
theorem ggX7_keep_X0_enter : GoodIn wsX7_keep wsX0_enter := goodIn_r _ [29, 17, 18, 30, 13, 14, 15, 16, 19, 20, 21, 22, 23, 24, 25, 31, 32, 33, 34, 35, 36, 37, 38, 47, 48, 49, 50, 51] (by decide +kernel) (by decide +kernel)
set_option maxRecDepth 20000 in
theorem gX7_keep_X0_enter : GoodIn wsX7_keep (wsV RX7 149 RX0 yX0_enter wsX0_enter) := goodIn_app (goodIn_of _ (by decide +kernel)) ggX7_keep_X0_enter
theorem dX7_keep_0 : decode cX7_keep 0 = .ok (.aload_n 0, 1) := by decide +kernel
theorem dX7_keep_1 : decode cX7_keep 1 = .ok (.iload_n 1, 1) := by decide +kernel
theorem dX7_keep_2 : decode cX7_keep 2 = .ok (.invokevirtual 62, 3) := by decide +kernel
theorem dX7_keep_5 : decode cX7_keep 5 = .ok (.astore_n 2, 1) := by decide +kernel
theorem dX7_keep_6 : decode cX7_keep 6 = .ok (.aload_n 0, 1) := by decide +kernel
theorem dX7_keep_7 : decode cX7_keep 7 = .ok (.getfield 28, 3) := by decide +kernel
theorem dX7_keep_10 : decode cX7_keep 10 = .ok (.aload_n 2, 1) := by decide +kernel
theorem dX7_keep_11 : decode cX7_keep 11 = .ok (.invokevirtual 145, 3) := by decide +kernel
theorem dX7_keep_14 : decode cX7_keep 14 = .ok (.iconst (-1), 1) := by decide +kernel
theorem dX7_keep_15 : decode cX7_keep 15 = .ok (.if_icmp .eq 5, 3) := by decide +kernel
theorem dX7_keep_18 : decode cX7_keep 18 = .ok (.iconst 0, 1) := by decide +kernel
theorem dX7_keep_19 : decode cX7_keep 19 = .ok (.ireturn, 1) := by decide +kernel
theorem dX7_keep_20 : decode cX7_keep 20 = .ok (.aload_n 0, 1) := by decide +kernel
theorem dX7_keep_21 : decode cX7_keep 21 = .ok (.getfield 28, 3) := by decide +kernel
theorem dX7_keep_24 : decode cX7_keep 24 = .ok (.aload_n 2, 1) := by decide +kernel
theorem dX7_keep_25 : decode cX7_keep 25 = .ok (.invokevirtual 149, 3) := by decide +kernel
theorem dX7_keep_28 : decode cX7_keep 28 = .ok (.ifCond .ne 13, 3) := by decide +kernel
theorem dX7_keep_31 : decode cX7_keep 31 = .ok (.new 152, 3) := by decide +kernel
theorem dX7_keep_34 : decode cX7_keep 34 = .ok (.dup, 1) := by decide +kernel
theorem dX7_keep_35 : decode cX7_keep 35 = .ok (.ldc 154, 2) := by decide +kernel
theorem dX7_keep_37 : decode cX7_keep 37 = .ok (.invokespecial 156, 3) := by decide +kernel
theorem dX7_keep_40 : decode cX7_keep 40 = .ok (.athrow, 1) := by decide +kernel
theorem dX7_keep_41 : decode cX7_keep 41 = .ok (.iconst 1, 1) := by decide +kernel
theorem dX7_keep_42 : decode cX7_keep 42 = .ok (.ireturn, 1) := by decide +kernel
set_option maxRecDepth 20000 in
theorem ggX7_drop_X7_setAt : GoodIn wsX7_drop wsX7_setAt := goodIn_ca (goodIn_r _ [6, 7, 8, 9, 32, 33, 34, 35, 36, 37, 38, 39] (by decide +kernel) (by decide +kernel)) (goodIn_sub (fun _ h => List.mem_cons_of_mem _ (List.mem_append_right _ h)) (by decide +kernel))
set_option maxRecDepth 20000 in
theorem gX7_drop_X7_setAt : GoodIn wsX7_drop (wsV RX7 62 RX7 yX7_setAt wsX7_setAt) := goodIn_app (goodIn_of _ (by decide +kernel)) ggX7_drop_X7_setAt
set_option maxRecDepth 20000 in
theorem ggX7_drop_X0_leave : GoodIn wsX7_drop wsX0_leave := goodIn_r _ [14, 15, 16, 17, 18, 19, 13, 20, 21, 22, 23, 24, 25, 26, 27, 28, 29, 30, 31, 40, 41, 42, 43, 44] (by decide +kernel) (by decide +kernel)
set_option maxRecDepth 20000 in
theorem gX7_drop_X0_leave : GoodIn wsX7_drop (wsV RX7 157 RX0 yX0_leave wsX0_leave) := goodIn_app (goodIn_of _ (by decide +kernel)) ggX7_drop_X0_leave
theorem dX7_drop_0 : decode cX7_drop 0 = .ok (.aload_n 0, 1) := by decide +kernel
theorem dX7_drop_1 : decode cX7_drop 1 = .ok (.getfield 28, 3) := by decide +kernel
theorem dX7_drop_4 : decode cX7_drop 4 = .ok (.aload_n 0, 1) := by decide +kernel
theorem dX7_drop_5 : decode cX7_drop 5 = .ok (.iload_n 1, 1) := by decide +kernel
theorem dX7_drop_6 : decode cX7_drop 6 = .ok (.invokevirtual 62, 3) := by decide +kernel
theorem dX7_drop_9 : decode cX7_drop 9 = .ok (.invokevirtual 157, 3) := by decide +kernel
theorem dX7_drop_12 : decode cX7_drop 12 = .ok (.ireturn, 1) := by decide +kernel
set_option maxRecDepth 20000 in
theorem ggX7_isKept_X7_setAt : GoodIn wsX7_isKept wsX7_setAt := goodIn_ca (goodIn_r _ [6, 7, 8, 9, 24, 25, 26, 27, 28, 29, 30, 31] (by decide +kernel) (by decide +kernel)) (goodIn_sub (fun _ h => List.mem_cons_of_mem _ (List.mem_append_right _ h)) (by decide +kernel))
set_option maxRecDepth 20000 in
theorem gX7_isKept_X7_setAt : GoodIn wsX7_isKept (wsV RX7 62 RX7 yX7_setAt wsX7_setAt) := goodIn_app (goodIn_of _ (by decide +kernel)) ggX7_isKept_X7_setAt
set_option maxRecDepth 20000 in
theorem ggX7_isKept_X0_find : GoodIn wsX7_isKept wsX0_find := goodIn_r _ [14, 15, 16, 17, 18, 19, 20, 21, 22, 23, 32, 33, 34, 35, 36] (by decide +kernel) (by decide +kernel)
set_option maxRecDepth 20000 in
theorem gX7_isKept_X0_find : GoodIn wsX7_isKept (wsV RX7 145 RX0 yX0_find wsX0_find) := goodIn_app (goodIn_of _ (by decide +kernel)) ggX7_isKept_X0_find
theorem dX7_isKept_0 : decode cX7_isKept 0 = .ok (.aload_n 0, 1) := by decide +kernel
theorem dX7_isKept_1 : decode cX7_isKept 1 = .ok (.getfield 28, 3) := by decide +kernel
theorem dX7_isKept_4 : decode cX7_isKept 4 = .ok (.aload_n 0, 1) := by decide +kernel
theorem dX7_isKept_5 : decode cX7_isKept 5 = .ok (.iload_n 1, 1) := by decide +kernel
theorem dX7_isKept_6 : decode cX7_isKept 6 = .ok (.invokevirtual 62, 3) := by decide +kernel
theorem dX7_isKept_9 : decode cX7_isKept 9 = .ok (.invokevirtual 145, 3) := by decide +kernel
theorem dX7_isKept_12 : decode cX7_isKept 12 = .ok (.iconst (-1), 1) := by decide +kernel
theorem dX7_isKept_13 : decode cX7_isKept 13 = .ok (.if_icmp .eq 7, 3) := by decide +kernel
theorem dX7_isKept_16 : decode cX7_isKept 16 = .ok (.iconst 1, 1) := by decide +kernel
theorem dX7_isKept_17 : decode cX7_isKept 17 = .ok (.goto 4, 3) := by decide +kernel
theorem dX7_isKept_20 : decode cX7_isKept 20 = .ok (.iconst 0, 1) := by decide +kernel
theorem dX7_isKept_21 : decode cX7_isKept 21 = .ok (.ireturn, 1) := by decide +kernel
set_option maxRecDepth 20000 in
theorem ggX7_kept_X0_count : GoodIn wsX7_kept wsX0_count := goodIn_r _ [6, 7, 16, 17, 18] (by decide +kernel) (by decide +kernel)
set_option maxRecDepth 20000 in
theorem gX7_kept_X0_count : GoodIn wsX7_kept (wsV RX7 160 RX0 yX0_count wsX0_count) := goodIn_app (goodIn_of _ (by decide +kernel)) ggX7_kept_X0_count
theorem dX7_kept_0 : decode cX7_kept 0 = .ok (.aload_n 0, 1) := by decide +kernel
theorem dX7_kept_1 : decode cX7_kept 1 = .ok (.getfield 28, 3) := by decide +kernel
theorem dX7_kept_4 : decode cX7_kept 4 = .ok (.invokevirtual 160, 3) := by decide +kernel
theorem dX7_kept_7 : decode cX7_kept 7 = .ok (.ireturn, 1) := by decide +kernel
set_option maxRecDepth 20000 in
theorem ggX7_keptSum_X0_total : GoodIn wsX7_keptSum wsX0_total := goodIn_r _ [6, 7, 8, 9, 10, 11, 12, 13, 14, 15, 16, 17, 18, 19, 28, 29, 30, 31, 32] (by decide +kernel) (by decide +kernel)
set_option maxRecDepth 20000 in
theorem gX7_keptSum_X0_total : GoodIn wsX7_keptSum (wsV RX7 161 RX0 yX0_total wsX0_total) := goodIn_app (goodIn_of _ (by decide +kernel)) ggX7_keptSum_X0_total
theorem dX7_keptSum_0 : decode cX7_keptSum 0 = .ok (.aload_n 0, 1) := by decide +kernel
theorem dX7_keptSum_1 : decode cX7_keptSum 1 = .ok (.getfield 28, 3) := by decide +kernel
theorem dX7_keptSum_4 : decode cX7_keptSum 4 = .ok (.invokevirtual 161, 3) := by decide +kernel
theorem dX7_keptSum_7 : decode cX7_keptSum 7 = .ok (.ireturn, 1) := by decide +kernel
set_option maxRecDepth 20000 in
theorem ggX7_dropAll_X0_count : GoodIn wsX7_dropAll wsX0_count := goodIn_r _ [6, 7, 20, 21, 22] (by decide +kernel) (by decide +kernel)
set_option maxRecDepth 20000 in
theorem gX7_dropAll_X0_count : GoodIn wsX7_dropAll (wsV RX7 160 RX0 yX0_count wsX0_count) := goodIn_app (goodIn_of _ (by decide +kernel)) ggX7_dropAll_X0_count
set_option maxRecDepth 20000 in
theorem ggX7_dropAll_X0_empty : GoodIn wsX7_dropAll wsX0_empty := goodIn_r _ [11, 7, 20, 21, 22] (by decide +kernel) (by decide +kernel)
set_option maxRecDepth 20000 in
theorem gX7_dropAll_X0_empty : GoodIn wsX7_dropAll (wsV RX7 162 RX0 yX0_empty wsX0_empty) := goodIn_app (goodIn_of _ (by decide +kernel)) ggX7_dropAll_X0_empty
theorem dX7_dropAll_0 : decode cX7_dropAll 0 = .ok (.aload_n 0, 1) := by decide +kernel
theorem dX7_dropAll_1 : decode cX7_dropAll 1 = .ok (.getfield 28, 3) := by decide +kernel
theorem dX7_dropAll_4 : decode cX7_dropAll 4 = .ok (.invokevirtual 160, 3) := by decide +kernel
theorem dX7_dropAll_7 : decode cX7_dropAll 7 = .ok (.istore_n 1, 1) := by decide +kernel
theorem dX7_dropAll_8 : decode cX7_dropAll 8 = .ok (.aload_n 0, 1) := by decide +kernel
theorem dX7_dropAll_9 : decode cX7_dropAll 9 = .ok (.getfield 28, 3) := by decide +kernel
theorem dX7_dropAll_12 : decode cX7_dropAll 12 = .ok (.invokevirtual 162, 3) := by decide +kernel
theorem dX7_dropAll_15 : decode cX7_dropAll 15 = .ok (.iload_n 1, 1) := by decide +kernel
theorem dX7_dropAll_16 : decode cX7_dropAll 16 = .ok (.ireturn, 1) := by decide +kernel
set_option maxRecDepth 20000 in
theorem ggX7_placeOf_X7_setAt : GoodIn wsX7_placeOf wsX7_setAt := goodIn_ca (goodIn_r _ [6, 7, 8, 9, 24, 25, 26, 27, 28, 29, 30, 31] (by decide +kernel) (by decide +kernel)) (goodIn_sub (fun _ h => List.mem_cons_of_mem _ (List.mem_append_right _ h)) (by decide +kernel))
set_option maxRecDepth 20000 in
theorem gX7_placeOf_X7_setAt : GoodIn wsX7_placeOf (wsV RX7 62 RX7 yX7_setAt wsX7_setAt) := goodIn_app (goodIn_of _ (by decide +kernel)) ggX7_placeOf_X7_setAt
set_option maxRecDepth 20000 in
theorem ggX7_placeOf_X0_find : GoodIn wsX7_placeOf wsX0_find := goodIn_r _ [14, 15, 16, 17, 18, 19, 20, 21, 22, 23, 32, 33, 34, 35, 36] (by decide +kernel) (by decide +kernel)
set_option maxRecDepth 20000 in
theorem gX7_placeOf_X0_find : GoodIn wsX7_placeOf (wsV RX7 145 RX0 yX0_find wsX0_find) := goodIn_app (goodIn_of _ (by decide +kernel)) ggX7_placeOf_X0_find
theorem dX7_placeOf_0 : decode cX7_placeOf 0 = .ok (.aload_n 0, 1) := by decide +kernel
theorem dX7_placeOf_1 : decode cX7_placeOf 1 = .ok (.getfield 28, 3) := by decide +kernel
theorem dX7_placeOf_4 : decode cX7_placeOf 4 = .ok (.aload_n 0, 1) := by decide +kernel
theorem dX7_placeOf_5 : decode cX7_placeOf 5 = .ok (.iload_n 1, 1) := by decide +kernel
theorem dX7_placeOf_6 : decode cX7_placeOf 6 = .ok (.invokevirtual 62, 3) := by decide +kernel
theorem dX7_placeOf_9 : decode cX7_placeOf 9 = .ok (.invokevirtual 145, 3) := by decide +kernel
theorem dX7_placeOf_12 : decode cX7_placeOf 12 = .ok (.ireturn, 1) := by decide +kernel
set_option maxRecDepth 20000 in
theorem ggX7_take_X7_setAt : GoodIn wsX7_take wsX7_setAt := goodIn_ca (goodIn_r _ [8, 9, 10, 11, 42, 43, 44, 45, 46, 47, 48, 49] (by decide +kernel) (by decide +kernel)) (goodIn_sub (fun _ h => List.mem_cons_of_mem _ (List.mem_append_right _ h)) (by decide +kernel))
set_option maxRecDepth 20000 in
theorem gX7_take_X7_setAt : GoodIn wsX7_take (wsV RX7 62 RX7 yX7_setAt wsX7_setAt) := goodIn_app (goodIn_of _ (by decide +kernel)) ggX7_take_X7_setAt
set_option maxRecDepth 20000 in
theorem ggX7_take_X0_hasPlace : GoodIn wsX7_take wsX0_hasPlace := goodIn_r _ [16, 17, 50, 51, 52] (by decide +kernel) (by decide +kernel)
set_option maxRecDepth 20000 in
theorem gX7_take_X0_hasPlace : GoodIn wsX7_take (wsV RX7 163 RX0 yX0_hasPlace wsX0_hasPlace) := goodIn_app (goodIn_of _ (by decide +kernel)) ggX7_take_X0_hasPlace
set_option maxRecDepth 20000 in
theorem ggX7_take_X0_tell : GoodIn wsX7_take wsX0_tell := goodIn_r _ [21, 22, 23, 13, 14, 15, 16, 17, 24, 25, 26, 27, 28, 29, 30, 50, 51, 52, 53, 54] (by decide +kernel) (by decide +kernel)
set_option maxRecDepth 20000 in
theorem gX7_take_X0_tell : GoodIn wsX7_take (wsV RX7 168 RX0 yX0_tell wsX0_tell) := goodIn_app (goodIn_of _ (by decide +kernel)) ggX7_take_X0_tell
set_option maxRecDepth 20000 in
theorem ggX7_take_X2_count : GoodIn wsX7_take wsX2_count := goodIn_r _ [34, 29, 30, 35, 36, 37, 38, 39, 40, 41, 53, 54] (by decide +kernel) (by decide +kernel)
set_option maxRecDepth 20000 in
theorem gX7_take_X2_count : GoodIn wsX7_take (wsV RX7 80 RX2 yX2_count wsX2_count) := goodIn_app (goodIn_of _ (by decide +kernel)) ggX7_take_X2_count
theorem dX7_take_0 : decode cX7_take 0 = .ok (.aload_n 0, 1) := by decide +kernel
theorem dX7_take_1 : decode cX7_take 1 = .ok (.iload_n 1, 1) := by decide +kernel
theorem dX7_take_2 : decode cX7_take 2 = .ok (.invokevirtual 62, 3) := by decide +kernel
theorem dX7_take_5 : decode cX7_take 5 = .ok (.astore_n 3, 1) := by decide +kernel
theorem dX7_take_6 : decode cX7_take 6 = .ok (.aload_n 0, 1) := by decide +kernel
theorem dX7_take_7 : decode cX7_take 7 = .ok (.getfield 28, 3) := by decide +kernel
theorem dX7_take_10 : decode cX7_take 10 = .ok (.iload_n 2, 1) := by decide +kernel
theorem dX7_take_11 : decode cX7_take 11 = .ok (.invokevirtual 163, 3) := by decide +kernel
theorem dX7_take_14 : decode cX7_take 14 = .ok (.ifCond .ne 13, 3) := by decide +kernel
theorem dX7_take_17 : decode cX7_take 17 = .ok (.new 100, 3) := by decide +kernel
theorem dX7_take_20 : decode cX7_take 20 = .ok (.dup, 1) := by decide +kernel
theorem dX7_take_21 : decode cX7_take 21 = .ok (.ldc 166, 2) := by decide +kernel
theorem dX7_take_23 : decode cX7_take 23 = .ok (.invokespecial 104, 3) := by decide +kernel
theorem dX7_take_26 : decode cX7_take 26 = .ok (.athrow, 1) := by decide +kernel
theorem dX7_take_27 : decode cX7_take 27 = .ok (.aload_n 0, 1) := by decide +kernel
theorem dX7_take_28 : decode cX7_take 28 = .ok (.getfield 28, 3) := by decide +kernel
theorem dX7_take_31 : decode cX7_take 31 = .ok (.iload_n 2, 1) := by decide +kernel
theorem dX7_take_32 : decode cX7_take 32 = .ok (.aload_n 3, 1) := by decide +kernel
theorem dX7_take_33 : decode cX7_take 33 = .ok (.invokevirtual 168, 3) := by decide +kernel
theorem dX7_take_36 : decode cX7_take 36 = .ok (.aload_n 3, 1) := by decide +kernel
theorem dX7_take_37 : decode cX7_take 37 = .ok (.invokevirtual 80, 3) := by decide +kernel
theorem dX7_take_40 : decode cX7_take 40 = .ok (.ireturn, 1) := by decide +kernel
set_option maxRecDepth 20000 in
theorem ggX7_spread_X7_checkRange : GoodIn wsX7_spread wsX7_checkRange := goodIn_ca (goodIn_r _ [6, 7, 8] (by decide +kernel) (by decide +kernel)) (goodIn_sub (fun _ h => List.mem_cons_of_mem _ (List.mem_append_left _ (List.mem_append_right _ h))) (by decide +kernel))
set_option maxRecDepth 20000 in
theorem gX7_spread_X7_checkRange : GoodIn wsX7_spread (va_wsS RX7 90 yX7_checkRange wsX7_checkRange) := goodIn_app (goodIn_of _ (by decide +kernel)) ggX7_spread_X7_checkRange
set_option maxRecDepth 20000 in
theorem ggX7_spread_X0_become : GoodIn wsX7_spread wsX0_become := goodIn_r _ [13, 14, 15, 16, 17, 18, 19, 20, 21, 22, 66, 67, 68, 69, 70] (by decide +kernel) (by decide +kernel)
set_option maxRecDepth 20000 in
theorem gX7_spread_X0_become : GoodIn wsX7_spread (wsV RX7 172 RX0 yX0_become wsX0_become) := goodIn_app (goodIn_of _ (by decide +kernel)) ggX7_spread_X0_become
set_option maxRecDepth 20000 in
theorem ggX7_spread_X0_spreadInto : GoodIn wsX7_spread wsX0_spreadInto := goodIn_ca (goodIn_r _ [26, 14, 27, 28, 29, 30, 12, 31, 15, 16, 17, 18, 19, 20, 21, 22, 32, 33, 34, 35, 36, 8, 37, 38, 39, 40, 41, 42, 43, 44, 45, 46, 47, 48, 49, 50, 51, 52, 53, 66, 67, 68, 69, 70] (by decide +kernel) (by decide +kernel)) (goodIn_sub (fun _ h => List.mem_cons_of_mem _ (List.mem_append_right _ h)) (by decide +kernel))
set_option maxRecDepth 20000 in
theorem gX7_spread_X0_spreadInto : GoodIn wsX7_spread (wsV RX7 175 RX0 yX0_spreadInto wsX0_spreadInto) := goodIn_app (goodIn_of _ (by decide +kernel)) ggX7_spread_X0_spreadInto
set_option maxRecDepth 20000 in
theorem ggX7_spread_X0_count : GoodIn wsX7_spread wsX0_count := goodIn_r _ [57, 14, 66, 67, 68] (by decide +kernel) (by decide +kernel)
set_option maxRecDepth 20000 in
theorem gX7_spread_X0_count : GoodIn wsX7_spread (wsV RX7 160 RX0 yX0_count wsX0_count) := goodIn_app (goodIn_of _ (by decide +kernel)) ggX7_spread_X0_count
theorem dX7_spread_0 : decode cX7_spread 0 = .ok (.iload_n 1, 1) := by decide +kernel
theorem dX7_spread_1 : decode cX7_spread 1 = .ok (.iconst 0, 1) := by decide +kernel
theorem dX7_spread_2 : decode cX7_spread 2 = .ok (.iconst 2, 1) := by decide +kernel
theorem dX7_spread_3 : decode cX7_spread 3 = .ok (.invokestatic 90, 3) := by decide +kernel
theorem dX7_spread_6 : decode cX7_spread 6 = .ok (.aload_n 0, 1) := by decide +kernel
theorem dX7_spread_7 : decode cX7_spread 7 = .ok (.getfield 32, 3) := by decide +kernel
theorem dX7_spread_10 : decode cX7_spread 10 = .ok (.aload_n 0, 1) := by decide +kernel
theorem dX7_spread_11 : decode cX7_spread 11 = .ok (.getfield 28, 3) := by decide +kernel
theorem dX7_spread_14 : decode cX7_spread 14 = .ok (.invokevirtual 172, 3) := by decide +kernel
theorem dX7_spread_17 : decode cX7_spread 17 = .ok (.aload_n 0, 1) := by decide +kernel
theorem dX7_spread_18 : decode cX7_spread 18 = .ok (.getfield 28, 3) := by decide +kernel
theorem dX7_spread_21 : decode cX7_spread 21 = .ok (.aload_n 0, 1) := by decide +kernel
theorem dX7_spread_22 : decode cX7_spread 22 = .ok (.getfield 32, 3) := by decide +kernel
theorem dX7_spread_25 : decode cX7_spread 25 = .ok (.iload_n 1, 1) := by decide +kernel
theorem dX7_spread_26 : decode cX7_spread 26 = .ok (.invokevirtual 175, 3) := by decide +kernel
theorem dX7_spread_29 : decode cX7_spread 29 = .ok (.ifCond .ne 5, 3) := by decide +kernel
theorem dX7_spread_32 : decode cX7_spread 32 = .ok (.iconst (-1), 1) := by decide +kernel
theorem dX7_spread_33 : decode cX7_spread 33 = .ok (.ireturn, 1) := by decide +kernel
theorem dX7_spread_34 : decode cX7_spread 34 = .ok (.aload_n 0, 1) := by decide +kernel
theorem dX7_spread_35 : decode cX7_spread 35 = .ok (.getfield 32, 3) := by decide +kernel
theorem dX7_spread_38 : decode cX7_spread 38 = .ok (.invokevirtual 160, 3) := by decide +kernel
theorem dX7_spread_41 : decode cX7_spread 41 = .ok (.aload_n 0, 1) := by decide +kernel
theorem dX7_spread_42 : decode cX7_spread 42 = .ok (.getfield 28, 3) := by decide +kernel
theorem dX7_spread_45 : decode cX7_spread 45 = .ok (.invokevirtual 160, 3) := by decide +kernel
theorem dX7_spread_48 : decode cX7_spread 48 = .ok (.isub, 1) := by decide +kernel
theorem dX7_spread_49 : decode cX7_spread 49 = .ok (.istore_n 2, 1) := by decide +kernel
theorem dX7_spread_50 : decode cX7_spread 50 = .ok (.aload_n 0, 1) := by decide +kernel
theorem dX7_spread_51 : decode cX7_spread 51 = .ok (.getfield 28, 3) := by decide +kernel
theorem dX7_spread_54 : decode cX7_spread 54 = .ok (.aload_n 0, 1) := by decide +kernel
theorem dX7_spread_55 : decode cX7_spread 55 = .ok (.getfield 32, 3) := by decide +kernel
theorem dX7_spread_58 : decode cX7_spread 58 = .ok (.invokevirtual 172, 3) := by decide +kernel
theorem dX7_spread_61 : decode cX7_spread 61 = .ok (.iload_n 2, 1) := by decide +kernel
theorem dX7_spread_62 : decode cX7_spread 62 = .ok (.ireturn, 1) := by decide +kernel
set_option maxRecDepth 20000 in
theorem ggX7_isClosed_X7_checkRange : GoodIn wsX7_isClosed wsX7_checkRange := goodIn_ca (goodIn_r _ [5, 6, 7] (by decide +kernel) (by decide +kernel)) (goodIn_sub (fun _ h => List.mem_cons_of_mem _ (List.mem_append_left _ (List.mem_append_right _ h))) (by decide +kernel))
set_option maxRecDepth 20000 in
theorem gX7_isClosed_X7_checkRange : GoodIn wsX7_isClosed (va_wsS RX7 90 yX7_checkRange wsX7_checkRange) := goodIn_app (goodIn_of _ (by decide +kernel)) ggX7_isClosed_X7_checkRange
set_option maxRecDepth 20000 in
theorem ggX7_isClosed_X0_closedUnder : GoodIn wsX7_isClosed wsX0_closedUnder := goodIn_ca (goodIn_r _ [12, 13, 14, 15, 16, 17, 11, 18, 19, 20, 21, 22, 23, 24, 25, 26, 27, 28, 29, 30, 31, 7, 32, 33, 34, 35, 36, 37, 38, 39, 40, 49, 50, 51, 52, 53] (by decide +kernel) (by decide +kernel)) (goodIn_sub (fun _ h => List.mem_cons_of_mem _ (List.mem_append_right _ h)) (by decide +kernel))
set_option maxRecDepth 20000 in
theorem gX7_isClosed_X0_closedUnder : GoodIn wsX7_isClosed (wsV RX7 179 RX0 yX0_closedUnder wsX0_closedUnder) := goodIn_app (goodIn_of _ (by decide +kernel)) ggX7_isClosed_X0_closedUnder
theorem dX7_isClosed_0 : decode cX7_isClosed 0 = .ok (.iload_n 1, 1) := by decide +kernel
theorem dX7_isClosed_1 : decode cX7_isClosed 1 = .ok (.iconst 0, 1) := by decide +kernel
theorem dX7_isClosed_2 : decode cX7_isClosed 2 = .ok (.iconst 2, 1) := by decide +kernel
theorem dX7_isClosed_3 : decode cX7_isClosed 3 = .ok (.invokestatic 90, 3) := by decide +kernel
theorem dX7_isClosed_6 : decode cX7_isClosed 6 = .ok (.aload_n 0, 1) := by decide +kernel
theorem dX7_isClosed_7 : decode cX7_isClosed 7 = .ok (.getfield 28, 3) := by decide +kernel
theorem dX7_isClosed_10 : decode cX7_isClosed 10 = .ok (.iload_n 1, 1) := by decide +kernel
theorem dX7_isClosed_11 : decode cX7_isClosed 11 = .ok (.invokevirtual 179, 3) := by decide +kernel
theorem dX7_isClosed_14 : decode cX7_isClosed 14 = .ok (.ireturn, 1) := by decide +kernel
set_option maxRecDepth 20000 in
theorem ggX7_isChain_X0_allNested : GoodIn wsX7_isChain wsX0_allNested := goodIn_ca (goodIn_r _ [6, 7, 8, 9, 10, 11, 12, 13, 14, 15, 16, 17, 18, 27, 28, 29, 30, 31] (by decide +kernel) (by decide +kernel)) (goodIn_sub (fun _ h => List.mem_cons_of_mem _ (List.mem_append_right _ h)) (by decide +kernel))
set_option maxRecDepth 20000 in
theorem gX7_isChain_X0_allNested : GoodIn wsX7_isChain (wsV RX7 182 RX0 yX0_allNested wsX0_allNested) := goodIn_app (goodIn_of _ (by decide +kernel)) ggX7_isChain_X0_allNested
theorem dX7_isChain_0 : decode cX7_isChain 0 = .ok (.aload_n 0, 1) := by decide +kernel
theorem dX7_isChain_1 : decode cX7_isChain 1 = .ok (.getfield 28, 3) := by decide +kernel
theorem dX7_isChain_4 : decode cX7_isChain 4 = .ok (.invokevirtual 182, 3) := by decide +kernel
theorem dX7_isChain_7 : decode cX7_isChain 7 = .ok (.ireturn, 1) := by decide +kernel
set_option maxRecDepth 20000 in
theorem ggX7_primes_X0_primePlaces : GoodIn wsX7_primes wsX0_primePlaces := goodIn_ca (goodIn_r _ [6, 7, 8, 9, 10, 11, 5, 12, 13, 14, 15, 16, 17, 18, 19, 20, 21, 22, 23, 24, 25, 26, 27, 28, 29, 30, 31, 32, 33, 34, 35, 36, 37, 38, 39, 40, 41, 42, 43, 59, 60, 61, 62, 63] (by decide +kernel) (by decide +kernel)) (goodIn_sub (fun _ h => List.mem_cons_of_mem _ (List.mem_append_right _ h)) (by decide +kernel))
set_option maxRecDepth 20000 in
theorem gX7_primes_X0_primePlaces : GoodIn wsX7_primes (wsV RX7 186 RX0 yX0_primePlaces wsX0_primePlaces) := goodIn_app (goodIn_of _ (by decide +kernel)) ggX7_primes_X0_primePlaces
set_option maxRecDepth 20000 in
theorem ggX7_primes_J6_bitCount_0f7a4 : GoodIn wsX7_primes wsJ6_bitCount_0f7a4 := goodIn_r _ [47, 48, 49, 50] (by decide +kernel) (by decide +kernel)
set_option maxRecDepth 20000 in
theorem gX7_primes_J6_bitCount_0f7a4 : GoodIn wsX7_primes (va_wsS RX7 189 yJ6_bitCount_0f7a4 wsJ6_bitCount_0f7a4) := goodIn_app (goodIn_of _ (by decide +kernel)) ggX7_primes_J6_bitCount_0f7a4
theorem dX7_primes_0 : decode cX7_primes 0 = .ok (.aload_n 0, 1) := by decide +kernel
theorem dX7_primes_1 : decode cX7_primes 1 = .ok (.getfield 28, 3) := by decide +kernel
theorem dX7_primes_4 : decode cX7_primes 4 = .ok (.invokevirtual 186, 3) := by decide +kernel
theorem dX7_primes_7 : decode cX7_primes 7 = .ok (.invokestatic 189, 3) := by decide +kernel
theorem dX7_primes_10 : decode cX7_primes 10 = .ok (.ireturn, 1) := by decide +kernel
set_option maxRecDepth 20000 in
theorem ggX7_primesWithin_X7_setAt : GoodIn wsX7_primesWithin wsX7_setAt := goodIn_ca (goodIn_r _ [6, 7, 8, 9, 60, 61, 62, 63, 64, 65, 66, 67] (by decide +kernel) (by decide +kernel)) (goodIn_sub (fun _ h => List.mem_cons_of_mem _ (List.mem_append_left _ (List.mem_append_right _ h))) (by decide +kernel))
set_option maxRecDepth 20000 in
theorem gX7_primesWithin_X7_setAt : GoodIn wsX7_primesWithin (wsV RX7 62 RX7 yX7_setAt wsX7_setAt) := goodIn_app (goodIn_of _ (by decide +kernel)) ggX7_primesWithin_X7_setAt
set_option maxRecDepth 20000 in
theorem ggX7_primesWithin_X0_primePlaces : GoodIn wsX7_primesWithin wsX0_primePlaces := goodIn_ca (goodIn_r _ [14, 15, 16, 17, 18, 19, 13, 20, 21, 22, 23, 24, 25, 26, 27, 28, 29, 30, 31, 32, 33, 34, 35, 36, 37, 38, 39, 40, 41, 42, 43, 44, 45, 46, 47, 48, 49, 50, 51, 68, 69, 70, 71, 72] (by decide +kernel) (by decide +kernel)) (goodIn_sub (fun _ h => List.mem_cons_of_mem _ (List.mem_append_right _ h)) (by decide +kernel))
set_option maxRecDepth 20000 in
theorem gX7_primesWithin_X0_primePlaces : GoodIn wsX7_primesWithin (wsV RX7 186 RX0 yX0_primePlaces wsX0_primePlaces) := goodIn_app (goodIn_of _ (by decide +kernel)) ggX7_primesWithin_X0_primePlaces
set_option maxRecDepth 20000 in
theorem ggX7_primesWithin_X0_placesWithin : GoodIn wsX7_primesWithin wsX0_placesWithin := goodIn_ca (goodIn_r _ [24, 15, 16, 25, 26, 27, 28, 29, 30, 31, 32, 33, 34, 68, 69, 70, 71, 72] (by decide +kernel) (by decide +kernel)) (goodIn_sub (fun _ h => List.mem_cons_of_mem _ (List.mem_append_right _ h)) (by decide +kernel))
set_option maxRecDepth 20000 in
theorem gX7_primesWithin_X0_placesWithin : GoodIn wsX7_primesWithin (wsV RX7 194 RX0 yX0_placesWithin wsX0_placesWithin) := goodIn_app (goodIn_of _ (by decide +kernel)) ggX7_primesWithin_X0_placesWithin
set_option maxRecDepth 20000 in
theorem ggX7_primesWithin_J6_bitCount_0f7a4 : GoodIn wsX7_primesWithin wsJ6_bitCount_0f7a4 := goodIn_r _ [56, 57, 58, 59] (by decide +kernel) (by decide +kernel)
set_option maxRecDepth 20000 in
theorem gX7_primesWithin_J6_bitCount_0f7a4 : GoodIn wsX7_primesWithin (va_wsS RX7 189 yJ6_bitCount_0f7a4 wsJ6_bitCount_0f7a4) := goodIn_app (goodIn_of _ (by decide +kernel)) ggX7_primesWithin_J6_bitCount_0f7a4
theorem dX7_primesWithin_0 : decode cX7_primesWithin 0 = .ok (.aload_n 0, 1) := by decide +kernel
theorem dX7_primesWithin_1 : decode cX7_primesWithin 1 = .ok (.iload_n 1, 1) := by decide +kernel
theorem dX7_primesWithin_2 : decode cX7_primesWithin 2 = .ok (.invokevirtual 62, 3) := by decide +kernel
theorem dX7_primesWithin_5 : decode cX7_primesWithin 5 = .ok (.astore_n 2, 1) := by decide +kernel
theorem dX7_primesWithin_6 : decode cX7_primesWithin 6 = .ok (.aload_n 0, 1) := by decide +kernel
theorem dX7_primesWithin_7 : decode cX7_primesWithin 7 = .ok (.getfield 28, 3) := by decide +kernel
theorem dX7_primesWithin_10 : decode cX7_primesWithin 10 = .ok (.aload_n 0, 1) := by decide +kernel
theorem dX7_primesWithin_11 : decode cX7_primesWithin 11 = .ok (.getfield 28, 3) := by decide +kernel
theorem dX7_primesWithin_14 : decode cX7_primesWithin 14 = .ok (.invokevirtual 186, 3) := by decide +kernel
theorem dX7_primesWithin_17 : decode cX7_primesWithin 17 = .ok (.aload_n 2, 1) := by decide +kernel
theorem dX7_primesWithin_18 : decode cX7_primesWithin 18 = .ok (.invokevirtual 194, 3) := by decide +kernel
theorem dX7_primesWithin_21 : decode cX7_primesWithin 21 = .ok (.invokestatic 189, 3) := by decide +kernel
theorem dX7_primesWithin_24 : decode cX7_primesWithin 24 = .ok (.ireturn, 1) := by decide +kernel
set_option maxRecDepth 20000 in
theorem ggX7_type_X4_append : GoodIn wsX7_type wsX4_append := goodIn_r _ [8, 9, 10, 11, 12, 13, 7, 14, 15, 28, 29] (by decide +kernel) (by decide +kernel)
set_option maxRecDepth 20000 in
theorem gX7_type_X4_append : GoodIn wsX7_type (wsV RX7 198 RX4 yX4_append wsX4_append) := goodIn_app (goodIn_of _ (by decide +kernel)) ggX7_type_X4_append
set_option maxRecDepth 20000 in
theorem ggX7_type_X4_length : GoodIn wsX7_type wsX4_length := goodIn_r _ [19, 10, 28, 29] (by decide +kernel) (by decide +kernel)
set_option maxRecDepth 20000 in
theorem gX7_type_X4_length : GoodIn wsX7_type (wsV RX7 204 RX4 yX4_length wsX4_length) := goodIn_app (goodIn_of _ (by decide +kernel)) ggX7_type_X4_length
theorem dX7_type_0 : decode cX7_type 0 = .ok (.aload_n 0, 1) := by decide +kernel
theorem dX7_type_1 : decode cX7_type 1 = .ok (.getfield 42, 3) := by decide +kernel
theorem dX7_type_4 : decode cX7_type 4 = .ok (.lload_n 1, 1) := by decide +kernel
theorem dX7_type_5 : decode cX7_type 5 = .ok (.invokevirtual 198, 3) := by decide +kernel
theorem dX7_type_8 : decode cX7_type 8 = .ok (.ifCond .ne 13, 3) := by decide +kernel
theorem dX7_type_11 : decode cX7_type 11 = .ok (.new 152, 3) := by decide +kernel
theorem dX7_type_14 : decode cX7_type 14 = .ok (.dup, 1) := by decide +kernel
theorem dX7_type_15 : decode cX7_type 15 = .ok (.ldc 202, 2) := by decide +kernel
theorem dX7_type_17 : decode cX7_type 17 = .ok (.invokespecial 156, 3) := by decide +kernel
theorem dX7_type_20 : decode cX7_type 20 = .ok (.athrow, 1) := by decide +kernel
theorem dX7_type_21 : decode cX7_type 21 = .ok (.aload_n 0, 1) := by decide +kernel
theorem dX7_type_22 : decode cX7_type 22 = .ok (.getfield 42, 3) := by decide +kernel
theorem dX7_type_25 : decode cX7_type 25 = .ok (.invokevirtual 204, 3) := by decide +kernel
theorem dX7_type_28 : decode cX7_type 28 = .ok (.ireturn, 1) := by decide +kernel
set_option maxRecDepth 20000 in
theorem ggX7_clearText_X4_length : GoodIn wsX7_clearText wsX4_length := goodIn_r _ [6, 7, 20, 21] (by decide +kernel) (by decide +kernel)
set_option maxRecDepth 20000 in
theorem gX7_clearText_X4_length : GoodIn wsX7_clearText (wsV RX7 204 RX4 yX4_length wsX4_length) := goodIn_app (goodIn_of _ (by decide +kernel)) ggX7_clearText_X4_length
set_option maxRecDepth 20000 in
theorem ggX7_clearText_X4_empty : GoodIn wsX7_clearText wsX4_empty := goodIn_r _ [11, 7, 20, 21] (by decide +kernel) (by decide +kernel)
set_option maxRecDepth 20000 in
theorem gX7_clearText_X4_empty : GoodIn wsX7_clearText (wsV RX7 207 RX4 yX4_empty wsX4_empty) := goodIn_app (goodIn_of _ (by decide +kernel)) ggX7_clearText_X4_empty
theorem dX7_clearText_0 : decode cX7_clearText 0 = .ok (.aload_n 0, 1) := by decide +kernel
theorem dX7_clearText_1 : decode cX7_clearText 1 = .ok (.getfield 42, 3) := by decide +kernel
theorem dX7_clearText_4 : decode cX7_clearText 4 = .ok (.invokevirtual 204, 3) := by decide +kernel
theorem dX7_clearText_7 : decode cX7_clearText 7 = .ok (.istore_n 1, 1) := by decide +kernel
theorem dX7_clearText_8 : decode cX7_clearText 8 = .ok (.aload_n 0, 1) := by decide +kernel
theorem dX7_clearText_9 : decode cX7_clearText 9 = .ok (.getfield 42, 3) := by decide +kernel
theorem dX7_clearText_12 : decode cX7_clearText 12 = .ok (.invokevirtual 207, 3) := by decide +kernel
theorem dX7_clearText_15 : decode cX7_clearText 15 = .ok (.iload_n 1, 1) := by decide +kernel
theorem dX7_clearText_16 : decode cX7_clearText 16 = .ok (.ireturn, 1) := by decide +kernel
set_option maxRecDepth 20000 in
theorem ggX7_textLength_X4_length : GoodIn wsX7_textLength wsX4_length := goodIn_r _ [6, 7, 16, 17] (by decide +kernel) (by decide +kernel)
set_option maxRecDepth 20000 in
theorem gX7_textLength_X4_length : GoodIn wsX7_textLength (wsV RX7 204 RX4 yX4_length wsX4_length) := goodIn_app (goodIn_of _ (by decide +kernel)) ggX7_textLength_X4_length
theorem dX7_textLength_0 : decode cX7_textLength 0 = .ok (.aload_n 0, 1) := by decide +kernel
theorem dX7_textLength_1 : decode cX7_textLength 1 = .ok (.getfield 42, 3) := by decide +kernel
theorem dX7_textLength_4 : decode cX7_textLength 4 = .ok (.invokevirtual 204, 3) := by decide +kernel
theorem dX7_textLength_7 : decode cX7_textLength 7 = .ok (.ireturn, 1) := by decide +kernel
set_option maxRecDepth 20000 in
theorem ggX7_example_X7_checkRange : GoodIn wsX7_example wsX7_checkRange := goodIn_ca (goodIn_r _ [5, 6, 7] (by decide +kernel) (by decide +kernel)) (goodIn_sub (fun _ h => List.mem_cons_of_mem _ (List.mem_append_right _ h)) (by decide +kernel))
set_option maxRecDepth 20000 in
theorem gX7_example_X7_checkRange : GoodIn wsX7_example (va_wsS RX7 90 yX7_checkRange wsX7_checkRange) := goodIn_app (goodIn_of _ (by decide +kernel)) ggX7_example_X7_checkRange
set_option maxRecDepth 20000 in
theorem ggX7_example_X4_become : GoodIn wsX7_example wsX4_become := goodIn_r _ [12, 13, 14, 15, 16, 17, 18, 19, 20, 21, 22, 23, 24, 25, 26, 27, 28, 29, 30, 31, 32, 33, 34, 35, 36, 37, 38, 39, 40, 41, 42, 43, 44, 45, 46, 47, 48, 49, 50, 51, 52, 53, 54, 55, 56, 57, 58, 59, 60, 61, 62, 63, 64, 65, 11, 66, 67, 80, 81] (by decide +kernel) (by decide +kernel)
set_option maxRecDepth 20000 in
theorem gX7_example_X4_become : GoodIn wsX7_example (wsV RX7 214 RX4 yX4_become wsX4_become) := goodIn_app (goodIn_of _ (by decide +kernel)) ggX7_example_X4_become
set_option maxRecDepth 20000 in
theorem ggX7_example_X4_length : GoodIn wsX7_example wsX4_length := goodIn_r _ [71, 13, 80, 81] (by decide +kernel) (by decide +kernel)
set_option maxRecDepth 20000 in
theorem gX7_example_X4_length : GoodIn wsX7_example (wsV RX7 204 RX4 yX4_length wsX4_length) := goodIn_app (goodIn_of _ (by decide +kernel)) ggX7_example_X4_length
theorem dX7_example_0 : decode cX7_example 0 = .ok (.iload_n 1, 1) := by decide +kernel
theorem dX7_example_1 : decode cX7_example 1 = .ok (.iconst 0, 1) := by decide +kernel
theorem dX7_example_2 : decode cX7_example 2 = .ok (.iconst 2, 1) := by decide +kernel
theorem dX7_example_3 : decode cX7_example 3 = .ok (.invokestatic 90, 3) := by decide +kernel
theorem dX7_example_6 : decode cX7_example 6 = .ok (.aload_n 0, 1) := by decide +kernel
theorem dX7_example_7 : decode cX7_example 7 = .ok (.getfield 42, 3) := by decide +kernel
theorem dX7_example_10 : decode cX7_example 10 = .ok (.iload_n 1, 1) := by decide +kernel
theorem dX7_example_11 : decode cX7_example 11 = .ok (.ifCond .ne 8, 3) := by decide +kernel
theorem dX7_example_14 : decode cX7_example 14 = .ok (.ldc 208, 2) := by decide +kernel
theorem dX7_example_16 : decode cX7_example 16 = .ok (.goto 15, 3) := by decide +kernel
theorem dX7_example_19 : decode cX7_example 19 = .ok (.iload_n 1, 1) := by decide +kernel
theorem dX7_example_20 : decode cX7_example 20 = .ok (.iconst 1, 1) := by decide +kernel
theorem dX7_example_21 : decode cX7_example 21 = .ok (.if_icmp .ne 8, 3) := by decide +kernel
theorem dX7_example_24 : decode cX7_example 24 = .ok (.ldc 210, 2) := by decide +kernel
theorem dX7_example_26 : decode cX7_example 26 = .ok (.goto 5, 3) := by decide +kernel
theorem dX7_example_29 : decode cX7_example 29 = .ok (.ldc 212, 2) := by decide +kernel
theorem dX7_example_31 : decode cX7_example 31 = .ok (.invokevirtual 214, 3) := by decide +kernel
theorem dX7_example_34 : decode cX7_example 34 = .ok (.aload_n 0, 1) := by decide +kernel
theorem dX7_example_35 : decode cX7_example 35 = .ok (.getfield 42, 3) := by decide +kernel
theorem dX7_example_38 : decode cX7_example 38 = .ok (.invokevirtual 204, 3) := by decide +kernel
theorem dX7_example_41 : decode cX7_example 41 = .ok (.ireturn, 1) := by decide +kernel
set_option maxRecDepth 20000 in
theorem ggX7_errorKind_X3_read : GoodIn wsX7_errorKind wsX3_read := goodIn_ca (goodIn_r _ [7, 8, 9, 10, 11, 12, 13, 14, 6, 15, 16, 17, 18, 19, 20, 21, 22, 23, 24, 25, 26, 27, 28, 29, 30, 31, 32, 33, 34, 35, 36, 37, 38, 39, 40, 41, 42, 43, 44, 45, 46, 47, 48, 49, 50, 51, 52, 53, 54, 55, 56, 57, 58, 59, 60, 61, 62, 63, 64, 65, 66, 67, 68, 69, 70, 71, 72, 73, 74, 75, 76, 77, 78, 79, 80, 81, 82, 83, 84, 85, 86, 87, 88, 89, 90, 91, 92, 93, 94, 95, 96, 97, 98, 99, 100, 101, 102, 103, 104, 105, 106, 107, 108, 109, 110, 111, 112, 113, 114, 115, 116, 117, 118, 119, 120, 121, 122, 123, 124, 125, 126, 127, 128, 129, 130, 131, 132, 133, 134, 135, 136, 137, 138, 139, 140, 141, 142, 143, 144, 145, 146, 147, 148, 149, 150, 151, 152, 153, 154, 155, 156, 157, 170, 171, 172, 173, 174, 175, 176, 177, 178, 179, 180, 181, 182, 183, 184, 185, 186, 187, 188] (by decide +kernel) (by decide +kernel)) (goodIn_sub (fun _ h => List.mem_cons_of_mem _ (List.mem_append_right _ h)) (by decide +kernel))
set_option maxRecDepth 20000 in
theorem gX7_errorKind_X3_read : GoodIn wsX7_errorKind (wsV RX7 216 RX3 yX3_read wsX3_read) := goodIn_app (goodIn_of _ (by decide +kernel)) ggX7_errorKind_X3_read
set_option maxRecDepth 20000 in
theorem ggX7_errorKind_X3_kind : GoodIn wsX7_errorKind wsX3_kind := goodIn_r _ [161, 8, 170, 171, 172, 173, 174, 175, 176, 177, 178, 179, 180, 181, 182, 183, 184] (by decide +kernel) (by decide +kernel)
set_option maxRecDepth 20000 in
theorem gX7_errorKind_X3_kind : GoodIn wsX7_errorKind (wsV RX7 220 RX3 yX3_kind wsX3_kind) := goodIn_app (goodIn_of _ (by decide +kernel)) ggX7_errorKind_X3_kind
theorem dX7_errorKind_0 : decode cX7_errorKind 0 = .ok (.aload_n 0, 1) := by decide +kernel
theorem dX7_errorKind_1 : decode cX7_errorKind 1 = .ok (.getfield 51, 3) := by decide +kernel
theorem dX7_errorKind_4 : decode cX7_errorKind 4 = .ok (.aload_n 0, 1) := by decide +kernel
theorem dX7_errorKind_5 : decode cX7_errorKind 5 = .ok (.getfield 11, 3) := by decide +kernel
theorem dX7_errorKind_8 : decode cX7_errorKind 8 = .ok (.invokevirtual 216, 3) := by decide +kernel
theorem dX7_errorKind_11 : decode cX7_errorKind 11 = .ok (.aload_n 0, 1) := by decide +kernel
theorem dX7_errorKind_12 : decode cX7_errorKind 12 = .ok (.getfield 51, 3) := by decide +kernel
theorem dX7_errorKind_15 : decode cX7_errorKind 15 = .ok (.invokevirtual 220, 3) := by decide +kernel
theorem dX7_errorKind_18 : decode cX7_errorKind 18 = .ok (.ireturn, 1) := by decide +kernel
set_option maxRecDepth 20000 in
theorem ggX7_errorPlace_X3_read : GoodIn wsX7_errorPlace wsX3_read := goodIn_ca (goodIn_r _ [7, 8, 9, 10, 11, 12, 13, 14, 6, 15, 16, 17, 18, 19, 20, 21, 22, 23, 24, 25, 26, 27, 28, 29, 30, 31, 32, 33, 34, 35, 36, 37, 38, 39, 40, 41, 42, 43, 44, 45, 46, 47, 48, 49, 50, 51, 52, 53, 54, 55, 56, 57, 58, 59, 60, 61, 62, 63, 64, 65, 66, 67, 68, 69, 70, 71, 72, 73, 74, 75, 76, 77, 78, 79, 80, 81, 82, 83, 84, 85, 86, 87, 88, 89, 90, 91, 92, 93, 94, 95, 96, 97, 98, 99, 100, 101, 102, 103, 104, 105, 106, 107, 108, 109, 110, 111, 112, 113, 114, 115, 116, 117, 118, 119, 120, 121, 122, 123, 124, 125, 126, 127, 128, 129, 130, 131, 132, 133, 134, 135, 136, 137, 138, 139, 140, 141, 142, 143, 144, 145, 146, 147, 148, 149, 150, 151, 152, 153, 154, 155, 156, 157, 170, 171, 172, 173, 174, 175, 176, 177, 178, 179, 180, 181, 182, 183, 184, 185, 186, 187, 188] (by decide +kernel) (by decide +kernel)) (goodIn_sub (fun _ h => List.mem_cons_of_mem _ (List.mem_append_right _ h)) (by decide +kernel))
set_option maxRecDepth 20000 in
theorem gX7_errorPlace_X3_read : GoodIn wsX7_errorPlace (wsV RX7 216 RX3 yX3_read wsX3_read) := goodIn_app (goodIn_of _ (by decide +kernel)) ggX7_errorPlace_X3_read
set_option maxRecDepth 20000 in
theorem ggX7_errorPlace_X3_place : GoodIn wsX7_errorPlace wsX3_place := goodIn_r _ [161, 19, 170, 171, 172, 173, 174, 175, 176, 177, 178, 179, 180, 181, 182, 183, 184] (by decide +kernel) (by decide +kernel)
set_option maxRecDepth 20000 in
theorem gX7_errorPlace_X3_place : GoodIn wsX7_errorPlace (wsV RX7 223 RX3 yX3_place wsX3_place) := goodIn_app (goodIn_of _ (by decide +kernel)) ggX7_errorPlace_X3_place
theorem dX7_errorPlace_0 : decode cX7_errorPlace 0 = .ok (.aload_n 0, 1) := by decide +kernel
theorem dX7_errorPlace_1 : decode cX7_errorPlace 1 = .ok (.getfield 51, 3) := by decide +kernel
theorem dX7_errorPlace_4 : decode cX7_errorPlace 4 = .ok (.aload_n 0, 1) := by decide +kernel
theorem dX7_errorPlace_5 : decode cX7_errorPlace 5 = .ok (.getfield 11, 3) := by decide +kernel
theorem dX7_errorPlace_8 : decode cX7_errorPlace 8 = .ok (.invokevirtual 216, 3) := by decide +kernel
theorem dX7_errorPlace_11 : decode cX7_errorPlace 11 = .ok (.aload_n 0, 1) := by decide +kernel
theorem dX7_errorPlace_12 : decode cX7_errorPlace 12 = .ok (.getfield 51, 3) := by decide +kernel
theorem dX7_errorPlace_15 : decode cX7_errorPlace 15 = .ok (.invokevirtual 223, 3) := by decide +kernel
theorem dX7_errorPlace_18 : decode cX7_errorPlace 18 = .ok (.ireturn, 1) := by decide +kernel
set_option maxRecDepth 20000 in
theorem ggX7_run_X3_read : GoodIn wsX7_run wsX3_read := goodIn_ca (goodIn_r _ [9, 10, 11, 12, 13, 14, 15, 16, 8, 17, 18, 19, 20, 21, 22, 23, 24, 25, 26, 27, 28, 29, 30, 31, 32, 33, 34, 35, 36, 37, 38, 39, 40, 41, 42, 43, 44, 45, 46, 47, 48, 49, 50, 51, 52, 53, 54, 55, 56, 57, 58, 59, 60, 61, 62, 63, 64, 65, 66, 67, 68, 69, 70, 71, 72, 73, 74, 75, 76, 77, 78, 79, 80, 81, 82, 83, 84, 85, 86, 87, 88, 89, 90, 91, 92, 93, 94, 95, 96, 97, 98, 99, 100, 101, 102, 103, 104, 105, 106, 107, 108, 109, 110, 111, 112, 113, 114, 115, 116, 117, 118, 119, 120, 121, 122, 123, 124, 125, 126, 127, 128, 129, 130, 131, 132, 133, 134, 135, 136, 137, 138, 139, 140, 141, 142, 143, 144, 145, 146, 147, 148, 149, 150, 151, 152, 153, 154, 155, 156, 157, 158, 159, 180, 181, 182, 183, 184, 185, 186, 187, 188, 189, 190, 191, 192, 193, 194, 195, 196, 197, 198] (by decide +kernel) (by decide +kernel)) (goodIn_sub (fun _ h => List.mem_cons_of_mem _ (List.mem_append_right _ h)) (by decide +kernel))
set_option maxRecDepth 20000 in
theorem gX7_run_X3_read : GoodIn wsX7_run (wsV RX7 216 RX3 yX3_read wsX3_read) := goodIn_app (goodIn_of _ (by decide +kernel)) ggX7_run_X3_read
set_option maxRecDepth 20000 in
theorem ggX7_run_X3_kind : GoodIn wsX7_run wsX3_kind := goodIn_r _ [163, 10, 180, 181, 182, 183, 184, 185, 186, 187, 188, 189, 190, 191, 192, 193, 194] (by decide +kernel) (by decide +kernel)
set_option maxRecDepth 20000 in
theorem gX7_run_X3_kind : GoodIn wsX7_run (wsV RX7 220 RX3 yX3_kind wsX3_kind) := goodIn_app (goodIn_of _ (by decide +kernel)) ggX7_run_X3_kind
set_option maxRecDepth 20000 in
theorem ggX7_run_X3_tellSets : GoodIn wsX7_run wsX3_tellSets := goodIn_r _ [167, 18, 22, 23, 24, 25, 26, 27, 28, 180, 181, 182, 183, 184, 185, 186, 187, 188, 189, 190, 191, 192, 193, 194, 195, 196] (by decide +kernel) (by decide +kernel)
set_option maxRecDepth 20000 in
theorem gX7_run_X3_tellSets : GoodIn wsX7_run (wsV RX7 228 RX3 yX3_tellSets wsX3_tellSets) := goodIn_app (goodIn_of _ (by decide +kernel)) ggX7_run_X3_tellSets
set_option maxRecDepth 20000 in
theorem ggX7_run_X3_statements : GoodIn wsX7_run wsX3_statements := goodIn_r _ [171, 20, 180, 181, 182, 183, 184, 185, 186, 187, 188, 189, 190, 191, 192, 193, 194] (by decide +kernel) (by decide +kernel)
set_option maxRecDepth 20000 in
theorem gX7_run_X3_statements : GoodIn wsX7_run (wsV RX7 231 RX3 yX3_statements wsX3_statements) := goodIn_app (goodIn_of _ (by decide +kernel)) ggX7_run_X3_statements
theorem dX7_run_0 : decode cX7_run 0 = .ok (.aload_n 0, 1) := by decide +kernel
theorem dX7_run_1 : decode cX7_run 1 = .ok (.getfield 51, 3) := by decide +kernel
theorem dX7_run_4 : decode cX7_run 4 = .ok (.aload_n 0, 1) := by decide +kernel
theorem dX7_run_5 : decode cX7_run 5 = .ok (.getfield 11, 3) := by decide +kernel
theorem dX7_run_8 : decode cX7_run 8 = .ok (.invokevirtual 216, 3) := by decide +kernel
theorem dX7_run_11 : decode cX7_run 11 = .ok (.aload_n 0, 1) := by decide +kernel
theorem dX7_run_12 : decode cX7_run 12 = .ok (.getfield 51, 3) := by decide +kernel
theorem dX7_run_15 : decode cX7_run 15 = .ok (.invokevirtual 220, 3) := by decide +kernel
theorem dX7_run_18 : decode cX7_run 18 = .ok (.ifCond .eq 13, 3) := by decide +kernel
theorem dX7_run_21 : decode cX7_run 21 = .ok (.new 152, 3) := by decide +kernel
theorem dX7_run_24 : decode cX7_run 24 = .ok (.dup, 1) := by decide +kernel
theorem dX7_run_25 : decode cX7_run 25 = .ok (.ldc 226, 2) := by decide +kernel
theorem dX7_run_27 : decode cX7_run 27 = .ok (.invokespecial 156, 3) := by decide +kernel
theorem dX7_run_30 : decode cX7_run 30 = .ok (.athrow, 1) := by decide +kernel
theorem dX7_run_31 : decode cX7_run 31 = .ok (.aload_n 0, 1) := by decide +kernel
theorem dX7_run_32 : decode cX7_run 32 = .ok (.getfield 51, 3) := by decide +kernel
theorem dX7_run_35 : decode cX7_run 35 = .ok (.aload_n 0, 1) := by decide +kernel
theorem dX7_run_36 : decode cX7_run 36 = .ok (.getfield 11, 3) := by decide +kernel
theorem dX7_run_39 : decode cX7_run 39 = .ok (.invokevirtual 228, 3) := by decide +kernel
theorem dX7_run_42 : decode cX7_run 42 = .ok (.aload_n 0, 1) := by decide +kernel
theorem dX7_run_43 : decode cX7_run 43 = .ok (.getfield 51, 3) := by decide +kernel
theorem dX7_run_46 : decode cX7_run 46 = .ok (.invokevirtual 231, 3) := by decide +kernel
theorem dX7_run_49 : decode cX7_run 49 = .ok (.ireturn, 1) := by decide +kernel
set_option maxRecDepth 20000 in
theorem ggX7_viewHas_X7_viewAt : GoodIn wsX7_viewHas wsX7_viewAt := goodIn_ca (goodIn_r _ [5, 6, 7, 8, 30, 31, 32, 33, 34, 35, 36, 37] (by decide +kernel) (by decide +kernel)) (goodIn_sub (fun _ h => List.mem_cons_of_mem _ (List.mem_append_left _ (List.mem_append_right _ h))) (by decide +kernel))
set_option maxRecDepth 20000 in
theorem gX7_viewHas_X7_viewAt : GoodIn wsX7_viewHas (wsV RX7 234 RX7 yX7_viewAt wsX7_viewAt) := goodIn_app (goodIn_of _ (by decide +kernel)) ggX7_viewHas_X7_viewAt
set_option maxRecDepth 20000 in
theorem ggX7_viewHas_X7_indexOfMember : GoodIn wsX7_viewHas wsX7_indexOfMember := goodIn_ca (goodIn_r _ [11, 12, 13, 14, 15, 4, 16] (by decide +kernel) (by decide +kernel)) (goodIn_sub (fun _ h => List.mem_cons_of_mem _ (List.mem_append_right _ h)) (by decide +kernel))
set_option maxRecDepth 20000 in
theorem gX7_viewHas_X7_indexOfMember : GoodIn wsX7_viewHas (va_wsS RX7 66 yX7_indexOfMember wsX7_indexOfMember) := goodIn_app (goodIn_of _ (by decide +kernel)) ggX7_viewHas_X7_indexOfMember
set_option maxRecDepth 20000 in
theorem ggX7_viewHas_X5_shows : GoodIn wsX7_viewHas wsX5_shows := goodIn_r _ [21, 22, 23, 24, 25, 26, 27, 28, 29, 38, 39, 40] (by decide +kernel) (by decide +kernel)
set_option maxRecDepth 20000 in
theorem gX7_viewHas_X5_shows : GoodIn wsX7_viewHas (wsV RX7 238 RX5 yX5_shows wsX5_shows) := goodIn_app (goodIn_of _ (by decide +kernel)) ggX7_viewHas_X5_shows
theorem dX7_viewHas_0 : decode cX7_viewHas 0 = .ok (.aload_n 0, 1) := by decide +kernel
theorem dX7_viewHas_1 : decode cX7_viewHas 1 = .ok (.iload_n 1, 1) := by decide +kernel
theorem dX7_viewHas_2 : decode cX7_viewHas 2 = .ok (.invokevirtual 234, 3) := by decide +kernel
theorem dX7_viewHas_5 : decode cX7_viewHas 5 = .ok (.astore_n 3, 1) := by decide +kernel
theorem dX7_viewHas_6 : decode cX7_viewHas 6 = .ok (.aload_n 3, 1) := by decide +kernel
theorem dX7_viewHas_7 : decode cX7_viewHas 7 = .ok (.iload_n 2, 1) := by decide +kernel
theorem dX7_viewHas_8 : decode cX7_viewHas 8 = .ok (.invokestatic 66, 3) := by decide +kernel
theorem dX7_viewHas_11 : decode cX7_viewHas 11 = .ok (.invokevirtual 238, 3) := by decide +kernel
theorem dX7_viewHas_14 : decode cX7_viewHas 14 = .ok (.ireturn, 1) := by decide +kernel
set_option maxRecDepth 20000 in
theorem ggX7_viewRefuses_X7_setAt : GoodIn wsX7_viewRefuses wsX7_setAt := goodIn_ca (goodIn_r _ [6, 7, 8, 9, 120, 121, 122, 123, 124, 125, 126, 127] (by decide +kernel) (by decide +kernel)) (goodIn_sub (fun _ h => List.mem_cons_of_mem _ (List.mem_append_left _ (List.mem_append_left _ (List.mem_append_left _ (List.mem_append_left _ (List.mem_append_left _ (List.mem_append_right _ h))))))) (by decide +kernel))
set_option maxRecDepth 20000 in
theorem gX7_viewRefuses_X7_setAt : GoodIn wsX7_viewRefuses (wsV RX7 62 RX7 yX7_setAt wsX7_setAt) := goodIn_app (goodIn_of _ (by decide +kernel)) ggX7_viewRefuses_X7_setAt
set_option maxRecDepth 20000 in
theorem ggX7_viewRefuses_X7_viewAt : GoodIn wsX7_viewRefuses wsX7_viewAt := goodIn_ca (goodIn_r _ [13, 7, 8, 14, 120, 121, 122, 123, 124, 125, 126, 127] (by decide +kernel) (by decide +kernel)) (goodIn_sub (fun _ h => List.mem_cons_of_mem _ (List.mem_append_left _ (List.mem_append_left _ (List.mem_append_left _ (List.mem_append_left _ (List.mem_append_left _ (List.mem_append_right _ h))))))) (by decide +kernel))
set_option maxRecDepth 20000 in
theorem gX7_viewRefuses_X7_viewAt : GoodIn wsX7_viewRefuses (wsV RX7 234 RX7 yX7_viewAt wsX7_viewAt) := goodIn_app (goodIn_of _ (by decide +kernel)) ggX7_viewRefuses_X7_viewAt
set_option maxRecDepth 20000 in
theorem ggX7_viewRefuses_X7_checkRange : GoodIn wsX7_viewRefuses wsX7_checkRange := goodIn_ca (goodIn_r _ [17, 18, 19] (by decide +kernel) (by decide +kernel)) (goodIn_sub (fun _ h => List.mem_cons_of_mem _ (List.mem_append_left _ (List.mem_append_left _ (List.mem_append_left _ (List.mem_append_left _ (List.mem_append_right _ h)))))) (by decide +kernel))
set_option maxRecDepth 20000 in
theorem gX7_viewRefuses_X7_checkRange : GoodIn wsX7_viewRefuses (va_wsS RX7 90 yX7_checkRange wsX7_checkRange) := goodIn_app (goodIn_of _ (by decide +kernel)) ggX7_viewRefuses_X7_checkRange
set_option maxRecDepth 20000 in
theorem ggX7_viewRefuses_X7_indexOfMember : GoodIn wsX7_viewRefuses wsX7_indexOfMember := goodIn_ca (goodIn_r _ [22, 18, 19, 23, 24, 5, 25] (by decide +kernel) (by decide +kernel)) (goodIn_sub (fun _ h => List.mem_cons_of_mem _ (List.mem_append_left _ (List.mem_append_left _ (List.mem_append_left _ (List.mem_append_left _ (List.mem_append_right _ h)))))) (by decide +kernel))
set_option maxRecDepth 20000 in
theorem gX7_viewRefuses_X7_indexOfMember : GoodIn wsX7_viewRefuses (va_wsS RX7 66 yX7_indexOfMember wsX7_indexOfMember) := goodIn_app (goodIn_of _ (by decide +kernel)) ggX7_viewRefuses_X7_indexOfMember
set_option maxRecDepth 20000 in
theorem ggX7_viewRefuses_X2_count : GoodIn wsX7_viewRefuses wsX2_count := goodIn_r _ [30, 31, 32, 33, 34, 35, 36, 37, 38, 39, 128, 129] (by decide +kernel) (by decide +kernel)
set_option maxRecDepth 20000 in
theorem gX7_viewRefuses_X2_count : GoodIn wsX7_viewRefuses (wsV RX7 80 RX2 yX2_count wsX2_count) := goodIn_app (goodIn_of _ (by decide +kernel)) ggX7_viewRefuses_X2_count
set_option maxRecDepth 20000 in
theorem ggX7_viewRefuses_X2_become : GoodIn wsX7_viewRefuses wsX2_become := goodIn_r _ [43, 31, 32, 128, 129] (by decide +kernel) (by decide +kernel)
set_option maxRecDepth 20000 in
theorem gX7_viewRefuses_X2_become : GoodIn wsX7_viewRefuses (wsV RX7 123 RX2 yX2_become wsX2_become) := goodIn_app (goodIn_of _ (by decide +kernel)) ggX7_viewRefuses_X2_become
set_option maxRecDepth 20000 in
theorem ggX7_viewRefuses_X7_isRefusedByView : GoodIn wsX7_viewRefuses wsX7_isRefusedByView := goodIn_ca (goodIn_ca (goodIn_ca (goodIn_ca (goodIn_ca (goodIn_r _ [47, 48, 49, 50, 51, 5, 52, 53, 54, 55, 56, 57, 58, 59, 60, 61, 62, 63, 2, 3, 4, 6, 7, 8, 9, 64, 65, 66, 67, 68, 69, 70, 71, 72, 73, 74, 75, 76, 77, 78, 79, 80, 81, 82, 83, 84, 85, 86, 87, 88, 89, 90, 91, 92, 93, 94, 95, 96, 97, 98, 29, 99, 31, 32, 100, 101, 102, 103, 104, 105, 106, 107, 108, 109, 110, 111, 112, 113, 114, 115, 120, 121, 122, 123, 124, 125, 126, 127, 130, 131, 132, 133, 134, 128, 129] (by decide +kernel) (by decide +kernel)) (goodIn_sub (fun _ h => List.mem_cons_of_mem _ (List.mem_append_left _ (List.mem_append_left _ (List.mem_append_left _ (List.mem_append_right _ h))))) (by decide +kernel))) (goodIn_sub (fun _ h => List.mem_cons_of_mem _ (List.mem_append_left _ (List.mem_append_left _ (List.mem_append_left _ (List.mem_append_left _ (List.mem_append_left _ (List.mem_append_right _ h))))))) (by decide +kernel))) (goodIn_sub (fun _ h => List.mem_cons_of_mem _ (List.mem_append_left _ (List.mem_append_left _ (List.mem_append_right _ h)))) (by decide +kernel))) (goodIn_sub (fun _ h => List.mem_cons_of_mem _ (List.mem_append_left _ (List.mem_append_right _ h))) (by decide +kernel))) (goodIn_sub (fun _ h => List.mem_cons_of_mem _ (List.mem_append_right _ h)) (by decide +kernel))
set_option maxRecDepth 20000 in
theorem gX7_viewRefuses_X7_isRefusedByView : GoodIn wsX7_viewRefuses (wsV RX7 241 RX7 yX7_isRefusedByView wsX7_isRefusedByView) := goodIn_app (goodIn_of _ (by decide +kernel)) ggX7_viewRefuses_X7_isRefusedByView
set_option maxRecDepth 20000 in
theorem ggX7_viewRefuses_X2_sameAs : GoodIn wsX7_viewRefuses wsX2_sameAs := goodIn_r _ [119, 31, 32, 128, 129] (by decide +kernel) (by decide +kernel)
set_option maxRecDepth 20000 in
theorem gX7_viewRefuses_X2_sameAs : GoodIn wsX7_viewRefuses (wsV RX7 139 RX2 yX2_sameAs wsX2_sameAs) := goodIn_app (goodIn_of _ (by decide +kernel)) ggX7_viewRefuses_X2_sameAs
theorem dX7_viewRefuses_0 : decode cX7_viewRefuses 0 = .ok (.aload_n 0, 1) := by decide +kernel
theorem dX7_viewRefuses_1 : decode cX7_viewRefuses 1 = .ok (.iload_n 1, 1) := by decide +kernel
theorem dX7_viewRefuses_2 : decode cX7_viewRefuses 2 = .ok (.invokevirtual 62, 3) := by decide +kernel
theorem dX7_viewRefuses_5 : decode cX7_viewRefuses 5 = .ok (.astore 4, 2) := by decide +kernel
theorem dX7_viewRefuses_7 : decode cX7_viewRefuses 7 = .ok (.aload_n 0, 1) := by decide +kernel
theorem dX7_viewRefuses_8 : decode cX7_viewRefuses 8 = .ok (.iload_n 1, 1) := by decide +kernel
theorem dX7_viewRefuses_9 : decode cX7_viewRefuses 9 = .ok (.invokevirtual 234, 3) := by decide +kernel
theorem dX7_viewRefuses_12 : decode cX7_viewRefuses 12 = .ok (.astore 5, 2) := by decide +kernel
theorem dX7_viewRefuses_14 : decode cX7_viewRefuses 14 = .ok (.iload_n 2, 1) := by decide +kernel
theorem dX7_viewRefuses_15 : decode cX7_viewRefuses 15 = .ok (.iconst 0, 1) := by decide +kernel
theorem dX7_viewRefuses_16 : decode cX7_viewRefuses 16 = .ok (.bipush 6, 2) := by decide +kernel
theorem dX7_viewRefuses_18 : decode cX7_viewRefuses 18 = .ok (.invokestatic 90, 3) := by decide +kernel
theorem dX7_viewRefuses_21 : decode cX7_viewRefuses 21 = .ok (.iload_n 3, 1) := by decide +kernel
theorem dX7_viewRefuses_22 : decode cX7_viewRefuses 22 = .ok (.invokestatic 66, 3) := by decide +kernel
theorem dX7_viewRefuses_25 : decode cX7_viewRefuses 25 = .ok (.istore 6, 2) := by decide +kernel
theorem dX7_viewRefuses_27 : decode cX7_viewRefuses 27 = .ok (.iload_n 2, 1) := by decide +kernel
theorem dX7_viewRefuses_28 : decode cX7_viewRefuses 28 = .ok (.bipush 6, 2) := by decide +kernel
theorem dX7_viewRefuses_30 : decode cX7_viewRefuses 30 = .ok (.if_icmp .ne 13, 3) := by decide +kernel
theorem dX7_viewRefuses_33 : decode cX7_viewRefuses 33 = .ok (.aload 4, 2) := by decide +kernel
theorem dX7_viewRefuses_35 : decode cX7_viewRefuses 35 = .ok (.invokevirtual 80, 3) := by decide +kernel
theorem dX7_viewRefuses_38 : decode cX7_viewRefuses 38 = .ok (.ifCond .ne 5, 3) := by decide +kernel
theorem dX7_viewRefuses_41 : decode cX7_viewRefuses 41 = .ok (.iconst 0, 1) := by decide +kernel
theorem dX7_viewRefuses_42 : decode cX7_viewRefuses 42 = .ok (.ireturn, 1) := by decide +kernel
theorem dX7_viewRefuses_43 : decode cX7_viewRefuses 43 = .ok (.aload_n 0, 1) := by decide +kernel
theorem dX7_viewRefuses_44 : decode cX7_viewRefuses 44 = .ok (.getfield 35, 3) := by decide +kernel
theorem dX7_viewRefuses_47 : decode cX7_viewRefuses 47 = .ok (.aload 4, 2) := by decide +kernel
theorem dX7_viewRefuses_49 : decode cX7_viewRefuses 49 = .ok (.invokevirtual 123, 3) := by decide +kernel
theorem dX7_viewRefuses_52 : decode cX7_viewRefuses 52 = .ok (.aload_n 0, 1) := by decide +kernel
theorem dX7_viewRefuses_53 : decode cX7_viewRefuses 53 = .ok (.aload 5, 2) := by decide +kernel
theorem dX7_viewRefuses_55 : decode cX7_viewRefuses 55 = .ok (.iload_n 2, 1) := by decide +kernel
theorem dX7_viewRefuses_56 : decode cX7_viewRefuses 56 = .ok (.iload 6, 2) := by decide +kernel
theorem dX7_viewRefuses_58 : decode cX7_viewRefuses 58 = .ok (.invokevirtual 241, 3) := by decide +kernel
theorem dX7_viewRefuses_61 : decode cX7_viewRefuses 61 = .ok (.ifCond .eq 19, 3) := by decide +kernel
theorem dX7_viewRefuses_64 : decode cX7_viewRefuses 64 = .ok (.aload 4, 2) := by decide +kernel
theorem dX7_viewRefuses_66 : decode cX7_viewRefuses 66 = .ok (.aload_n 0, 1) := by decide +kernel
theorem dX7_viewRefuses_67 : decode cX7_viewRefuses 67 = .ok (.getfield 35, 3) := by decide +kernel
theorem dX7_viewRefuses_70 : decode cX7_viewRefuses 70 = .ok (.invokevirtual 139, 3) := by decide +kernel
theorem dX7_viewRefuses_73 : decode cX7_viewRefuses 73 = .ok (.ifCond .eq 7, 3) := by decide +kernel
theorem dX7_viewRefuses_76 : decode cX7_viewRefuses 76 = .ok (.iconst 1, 1) := by decide +kernel
theorem dX7_viewRefuses_77 : decode cX7_viewRefuses 77 = .ok (.goto 4, 3) := by decide +kernel
theorem dX7_viewRefuses_80 : decode cX7_viewRefuses 80 = .ok (.iconst 0, 1) := by decide +kernel
theorem dX7_viewRefuses_81 : decode cX7_viewRefuses 81 = .ok (.ireturn, 1) := by decide +kernel
set_option maxRecDepth 20000 in
theorem ggX7_walkRefuses_X7_setAt : GoodIn wsX7_walkRefuses wsX7_setAt := goodIn_ca (goodIn_r _ [7, 8, 9, 10, 77, 78, 79, 80, 81, 82, 83, 84] (by decide +kernel) (by decide +kernel)) (goodIn_sub (fun _ h => List.mem_cons_of_mem _ (List.mem_append_left _ (List.mem_append_left _ (List.mem_append_left _ (List.mem_append_left _ (List.mem_append_right _ h)))))) (by decide +kernel))
set_option maxRecDepth 20000 in
theorem gX7_walkRefuses_X7_setAt : GoodIn wsX7_walkRefuses (wsV RX7 62 RX7 yX7_setAt wsX7_setAt) := goodIn_app (goodIn_of _ (by decide +kernel)) ggX7_walkRefuses_X7_setAt
set_option maxRecDepth 20000 in
theorem ggX7_walkRefuses_X7_checkRange : GoodIn wsX7_walkRefuses wsX7_checkRange := goodIn_ca (goodIn_r _ [13, 14, 15] (by decide +kernel) (by decide +kernel)) (goodIn_sub (fun _ h => List.mem_cons_of_mem _ (List.mem_append_left _ (List.mem_append_left _ (List.mem_append_left _ (List.mem_append_right _ h))))) (by decide +kernel))
set_option maxRecDepth 20000 in
theorem gX7_walkRefuses_X7_checkRange : GoodIn wsX7_walkRefuses (va_wsS RX7 90 yX7_checkRange wsX7_checkRange) := goodIn_app (goodIn_of _ (by decide +kernel)) ggX7_walkRefuses_X7_checkRange
set_option maxRecDepth 20000 in
theorem ggX7_walkRefuses_X2_become : GoodIn wsX7_walkRefuses wsX2_become := goodIn_r _ [20, 21, 22, 85, 86] (by decide +kernel) (by decide +kernel)
set_option maxRecDepth 20000 in
theorem gX7_walkRefuses_X2_become : GoodIn wsX7_walkRefuses (wsV RX7 123 RX2 yX2_become wsX2_become) := goodIn_app (goodIn_of _ (by decide +kernel)) ggX7_walkRefuses_X2_become
set_option maxRecDepth 20000 in
theorem ggX7_walkRefuses_X7_walkWrongly : GoodIn wsX7_walkRefuses wsX7_walkWrongly := goodIn_ca (goodIn_ca (goodIn_ca (goodIn_r _ [25, 26, 27, 28, 29, 30, 31, 19, 32, 21, 22, 33, 34, 35, 36, 37, 38, 39, 40, 41, 42, 43, 44, 45, 46, 47, 48, 49, 50, 51, 52, 53, 54, 55, 56, 57, 58, 59, 60, 61, 62, 63, 64, 65, 66, 67, 68, 69, 70, 71, 72, 73, 74, 75, 76, 87, 88, 89, 90, 85, 86] (by decide +kernel) (by decide +kernel)) (goodIn_sub (fun _ h => List.mem_cons_of_mem _ (List.mem_append_left _ (List.mem_append_left _ (List.mem_append_right _ h)))) (by decide +kernel))) (goodIn_sub (fun _ h => List.mem_cons_of_mem _ (List.mem_append_left _ (List.mem_append_right _ h))) (by decide +kernel))) (goodIn_sub (fun _ h => List.mem_cons_of_mem _ (List.mem_append_right _ h)) (by decide +kernel))
set_option maxRecDepth 20000 in
theorem gX7_walkRefuses_X7_walkWrongly : GoodIn wsX7_walkRefuses (va_wsS RX7 245 yX7_walkWrongly wsX7_walkWrongly) := goodIn_app (goodIn_of _ (by decide +kernel)) ggX7_walkRefuses_X7_walkWrongly
theorem dX7_walkRefuses_0 : decode cX7_walkRefuses 0 = .ok (.aload_n 0, 1) := by decide +kernel
theorem dX7_walkRefuses_1 : decode cX7_walkRefuses 1 = .ok (.iload_n 1, 1) := by decide +kernel
theorem dX7_walkRefuses_2 : decode cX7_walkRefuses 2 = .ok (.invokevirtual 62, 3) := by decide +kernel
theorem dX7_walkRefuses_5 : decode cX7_walkRefuses 5 = .ok (.astore_n 3, 1) := by decide +kernel
theorem dX7_walkRefuses_6 : decode cX7_walkRefuses 6 = .ok (.iload_n 2, 1) := by decide +kernel
theorem dX7_walkRefuses_7 : decode cX7_walkRefuses 7 = .ok (.iconst 0, 1) := by decide +kernel
theorem dX7_walkRefuses_8 : decode cX7_walkRefuses 8 = .ok (.iconst 2, 1) := by decide +kernel
theorem dX7_walkRefuses_9 : decode cX7_walkRefuses 9 = .ok (.invokestatic 90, 3) := by decide +kernel
theorem dX7_walkRefuses_12 : decode cX7_walkRefuses 12 = .ok (.aload_n 0, 1) := by decide +kernel
theorem dX7_walkRefuses_13 : decode cX7_walkRefuses 13 = .ok (.getfield 35, 3) := by decide +kernel
theorem dX7_walkRefuses_16 : decode cX7_walkRefuses 16 = .ok (.aload_n 3, 1) := by decide +kernel
theorem dX7_walkRefuses_17 : decode cX7_walkRefuses 17 = .ok (.invokevirtual 123, 3) := by decide +kernel
theorem dX7_walkRefuses_20 : decode cX7_walkRefuses 20 = .ok (.aload_n 0, 1) := by decide +kernel
theorem dX7_walkRefuses_21 : decode cX7_walkRefuses 21 = .ok (.getfield 35, 3) := by decide +kernel
theorem dX7_walkRefuses_24 : decode cX7_walkRefuses 24 = .ok (.iload_n 2, 1) := by decide +kernel
theorem dX7_walkRefuses_25 : decode cX7_walkRefuses 25 = .ok (.invokestatic 245, 3) := by decide +kernel
theorem dX7_walkRefuses_28 : decode cX7_walkRefuses 28 = .ok (.iconst (-1), 1) := by decide +kernel
theorem dX7_walkRefuses_29 : decode cX7_walkRefuses 29 = .ok (.ireturn, 1) := by decide +kernel
theorem dX7_walkRefuses_30 : decode cX7_walkRefuses 30 = .ok (.astore 4, 2) := by decide +kernel
theorem dX7_walkRefuses_32 : decode cX7_walkRefuses 32 = .ok (.iconst 1, 1) := by decide +kernel
theorem dX7_walkRefuses_33 : decode cX7_walkRefuses 33 = .ok (.ireturn, 1) := by decide +kernel
theorem dX7_walkRefuses_34 : decode cX7_walkRefuses 34 = .ok (.astore 4, 2) := by decide +kernel
theorem dX7_walkRefuses_36 : decode cX7_walkRefuses 36 = .ok (.iconst 2, 1) := by decide +kernel
theorem dX7_walkRefuses_37 : decode cX7_walkRefuses 37 = .ok (.ireturn, 1) := by decide +kernel
set_option maxRecDepth 20000 in
theorem ggX7_nullRefuses_X7_setAt : GoodIn wsX7_nullRefuses wsX7_setAt := goodIn_ca (goodIn_r _ [6, 7, 8, 9, 39, 40, 41, 42, 43, 44, 45, 46] (by decide +kernel) (by decide +kernel)) (goodIn_sub (fun _ h => List.mem_cons_of_mem _ (List.mem_append_left _ (List.mem_append_left _ (List.mem_append_right _ h)))) (by decide +kernel))
set_option maxRecDepth 20000 in
theorem gX7_nullRefuses_X7_setAt : GoodIn wsX7_nullRefuses (wsV RX7 62 RX7 yX7_setAt wsX7_setAt) := goodIn_app (goodIn_of _ (by decide +kernel)) ggX7_nullRefuses_X7_setAt
set_option maxRecDepth 20000 in
theorem ggX7_nullRefuses_X7_checkRange : GoodIn wsX7_nullRefuses wsX7_checkRange := goodIn_ca (goodIn_r _ [12, 13, 14] (by decide +kernel) (by decide +kernel)) (goodIn_sub (fun _ h => List.mem_cons_of_mem _ (List.mem_append_left _ (List.mem_append_right _ h))) (by decide +kernel))
set_option maxRecDepth 20000 in
theorem gX7_nullRefuses_X7_checkRange : GoodIn wsX7_nullRefuses (va_wsS RX7 90 yX7_checkRange wsX7_checkRange) := goodIn_app (goodIn_of _ (by decide +kernel)) ggX7_nullRefuses_X7_checkRange
set_option maxRecDepth 20000 in
theorem ggX7_nullRefuses_X2_become : GoodIn wsX7_nullRefuses wsX2_become := goodIn_r _ [19, 20, 21, 47, 48] (by decide +kernel) (by decide +kernel)
set_option maxRecDepth 20000 in
theorem gX7_nullRefuses_X2_become : GoodIn wsX7_nullRefuses (wsV RX7 123 RX2 yX2_become wsX2_become) := goodIn_app (goodIn_of _ (by decide +kernel)) ggX7_nullRefuses_X2_become
set_option maxRecDepth 20000 in
theorem ggX7_nullRefuses_X7_isRefusedWithoutOther : GoodIn wsX7_nullRefuses wsX7_isRefusedWithoutOther := goodIn_ca (goodIn_r _ [24, 13, 25, 26, 27, 18, 28, 29, 14, 20, 21, 30, 31, 32, 33, 34, 47, 48] (by decide +kernel) (by decide +kernel)) (goodIn_sub (fun _ h => List.mem_cons_of_mem _ (List.mem_append_right _ h)) (by decide +kernel))
set_option maxRecDepth 20000 in
theorem gX7_nullRefuses_X7_isRefusedWithoutOther : GoodIn wsX7_nullRefuses (va_wsS RX7 249 yX7_isRefusedWithoutOther wsX7_isRefusedWithoutOther) := goodIn_app (goodIn_of _ (by decide +kernel)) ggX7_nullRefuses_X7_isRefusedWithoutOther
set_option maxRecDepth 20000 in
theorem ggX7_nullRefuses_X2_sameAs : GoodIn wsX7_nullRefuses wsX2_sameAs := goodIn_r _ [38, 20, 21, 47, 48] (by decide +kernel) (by decide +kernel)
set_option maxRecDepth 20000 in
theorem gX7_nullRefuses_X2_sameAs : GoodIn wsX7_nullRefuses (wsV RX7 139 RX2 yX2_sameAs wsX2_sameAs) := goodIn_app (goodIn_of _ (by decide +kernel)) ggX7_nullRefuses_X2_sameAs
theorem dX7_nullRefuses_0 : decode cX7_nullRefuses 0 = .ok (.aload_n 0, 1) := by decide +kernel
theorem dX7_nullRefuses_1 : decode cX7_nullRefuses 1 = .ok (.iload_n 1, 1) := by decide +kernel
theorem dX7_nullRefuses_2 : decode cX7_nullRefuses 2 = .ok (.invokevirtual 62, 3) := by decide +kernel
theorem dX7_nullRefuses_5 : decode cX7_nullRefuses 5 = .ok (.astore_n 3, 1) := by decide +kernel
theorem dX7_nullRefuses_6 : decode cX7_nullRefuses 6 = .ok (.iload_n 2, 1) := by decide +kernel
theorem dX7_nullRefuses_7 : decode cX7_nullRefuses 7 = .ok (.iconst 0, 1) := by decide +kernel
theorem dX7_nullRefuses_8 : decode cX7_nullRefuses 8 = .ok (.iconst 3, 1) := by decide +kernel
theorem dX7_nullRefuses_9 : decode cX7_nullRefuses 9 = .ok (.invokestatic 90, 3) := by decide +kernel
theorem dX7_nullRefuses_12 : decode cX7_nullRefuses 12 = .ok (.aload_n 0, 1) := by decide +kernel
theorem dX7_nullRefuses_13 : decode cX7_nullRefuses 13 = .ok (.getfield 35, 3) := by decide +kernel
theorem dX7_nullRefuses_16 : decode cX7_nullRefuses 16 = .ok (.aload_n 3, 1) := by decide +kernel
theorem dX7_nullRefuses_17 : decode cX7_nullRefuses 17 = .ok (.invokevirtual 123, 3) := by decide +kernel
theorem dX7_nullRefuses_20 : decode cX7_nullRefuses 20 = .ok (.aload_n 3, 1) := by decide +kernel
theorem dX7_nullRefuses_21 : decode cX7_nullRefuses 21 = .ok (.iload_n 2, 1) := by decide +kernel
theorem dX7_nullRefuses_22 : decode cX7_nullRefuses 22 = .ok (.invokestatic 249, 3) := by decide +kernel
theorem dX7_nullRefuses_25 : decode cX7_nullRefuses 25 = .ok (.ifCond .eq 18, 3) := by decide +kernel
theorem dX7_nullRefuses_28 : decode cX7_nullRefuses 28 = .ok (.aload_n 3, 1) := by decide +kernel
theorem dX7_nullRefuses_29 : decode cX7_nullRefuses 29 = .ok (.aload_n 0, 1) := by decide +kernel
theorem dX7_nullRefuses_30 : decode cX7_nullRefuses 30 = .ok (.getfield 35, 3) := by decide +kernel
theorem dX7_nullRefuses_33 : decode cX7_nullRefuses 33 = .ok (.invokevirtual 139, 3) := by decide +kernel
theorem dX7_nullRefuses_36 : decode cX7_nullRefuses 36 = .ok (.ifCond .eq 7, 3) := by decide +kernel
theorem dX7_nullRefuses_39 : decode cX7_nullRefuses 39 = .ok (.iconst 1, 1) := by decide +kernel
theorem dX7_nullRefuses_40 : decode cX7_nullRefuses 40 = .ok (.goto 4, 3) := by decide +kernel
theorem dX7_nullRefuses_43 : decode cX7_nullRefuses 43 = .ok (.iconst 0, 1) := by decide +kernel
theorem dX7_nullRefuses_44 : decode cX7_nullRefuses 44 = .ok (.ireturn, 1) := by decide +kernel
set_option maxRecDepth 20000 in
theorem ggX7_lawErrors_X7_setAt : GoodIn wsX7_lawErrors wsX7_setAt := goodIn_ca (goodIn_r _ [6, 7, 8, 9, 90, 91, 92, 93, 94, 95, 96, 97] (by decide +kernel) (by decide +kernel)) (goodIn_sub (fun _ h => List.mem_cons_of_mem _ (List.mem_append_left _ (List.mem_append_right _ h))) (by decide +kernel))
set_option maxRecDepth 20000 in
theorem gX7_lawErrors_X7_setAt : GoodIn wsX7_lawErrors (wsV RX7 62 RX7 yX7_setAt wsX7_setAt) := goodIn_app (goodIn_of _ (by decide +kernel)) ggX7_lawErrors_X7_setAt
set_option maxRecDepth 20000 in
theorem ggX7_lawErrors_X1_errorsEachWay : GoodIn wsX7_lawErrors wsX1_errorsEachWay := goodIn_ca (goodIn_r _ [14, 15, 16, 17, 13, 18, 19, 20, 21, 22, 23, 24, 25, 26, 27, 28, 29, 30, 31, 32, 33, 34, 35, 36, 37, 38, 39, 40, 41, 42, 43, 44, 45, 46, 47, 48, 49, 50, 51, 52, 53, 54, 55, 56, 57, 58, 59, 60, 61, 62, 63, 64, 65, 66, 67, 68, 69, 70, 71, 72, 73, 74, 75, 76, 77, 78, 79, 80, 81, 82, 83, 84, 85, 86, 87, 88, 89, 98, 99, 100, 101, 102] (by decide +kernel) (by decide +kernel)) (goodIn_sub (fun _ h => List.mem_cons_of_mem _ (List.mem_append_right _ h)) (by decide +kernel))
set_option maxRecDepth 20000 in
theorem gX7_lawErrors_X1_errorsEachWay : GoodIn wsX7_lawErrors (wsV RX7 253 RX1 yX1_errorsEachWay wsX1_errorsEachWay) := goodIn_app (goodIn_of _ (by decide +kernel)) ggX7_lawErrors_X1_errorsEachWay
theorem dX7_lawErrors_0 : decode cX7_lawErrors 0 = .ok (.aload_n 0, 1) := by decide +kernel
theorem dX7_lawErrors_1 : decode cX7_lawErrors 1 = .ok (.iload_n 1, 1) := by decide +kernel
theorem dX7_lawErrors_2 : decode cX7_lawErrors 2 = .ok (.invokevirtual 62, 3) := by decide +kernel
theorem dX7_lawErrors_5 : decode cX7_lawErrors 5 = .ok (.astore 4, 2) := by decide +kernel
theorem dX7_lawErrors_7 : decode cX7_lawErrors 7 = .ok (.aload_n 0, 1) := by decide +kernel
theorem dX7_lawErrors_8 : decode cX7_lawErrors 8 = .ok (.iload_n 2, 1) := by decide +kernel
theorem dX7_lawErrors_9 : decode cX7_lawErrors 9 = .ok (.invokevirtual 62, 3) := by decide +kernel
theorem dX7_lawErrors_12 : decode cX7_lawErrors 12 = .ok (.astore 5, 2) := by decide +kernel
theorem dX7_lawErrors_14 : decode cX7_lawErrors 14 = .ok (.aload_n 0, 1) := by decide +kernel
theorem dX7_lawErrors_15 : decode cX7_lawErrors 15 = .ok (.iload_n 3, 1) := by decide +kernel
theorem dX7_lawErrors_16 : decode cX7_lawErrors 16 = .ok (.invokevirtual 62, 3) := by decide +kernel
theorem dX7_lawErrors_19 : decode cX7_lawErrors 19 = .ok (.astore 6, 2) := by decide +kernel
theorem dX7_lawErrors_21 : decode cX7_lawErrors 21 = .ok (.aload_n 0, 1) := by decide +kernel
theorem dX7_lawErrors_22 : decode cX7_lawErrors 22 = .ok (.getfield 58, 3) := by decide +kernel
theorem dX7_lawErrors_25 : decode cX7_lawErrors 25 = .ok (.aload 4, 2) := by decide +kernel
theorem dX7_lawErrors_27 : decode cX7_lawErrors 27 = .ok (.aload 5, 2) := by decide +kernel
theorem dX7_lawErrors_29 : decode cX7_lawErrors 29 = .ok (.aload 6, 2) := by decide +kernel
theorem dX7_lawErrors_31 : decode cX7_lawErrors 31 = .ok (.invokevirtual 253, 3) := by decide +kernel
theorem dX7_lawErrors_34 : decode cX7_lawErrors 34 = .ok (.ireturn, 1) := by decide +kernel
set_option maxRecDepth 20000 in
theorem ggX7_familyErrors_X0_errors : GoodIn wsX7_familyErrors wsX0_errors := goodIn_ca (goodIn_r _ [6, 7, 8, 9, 10, 11, 5, 12, 13, 14, 15, 16, 17, 18, 19, 20, 21, 22, 23, 24, 25, 26, 27, 28, 29, 30, 31, 32, 33, 34, 35, 36, 37, 38, 39, 40, 41, 42, 43, 44, 45, 46, 47, 56, 57, 58, 59, 60] (by decide +kernel) (by decide +kernel)) (goodIn_sub (fun _ h => List.mem_cons_of_mem _ (List.mem_append_right _ h)) (by decide +kernel))
set_option maxRecDepth 20000 in
theorem gX7_familyErrors_X0_errors : GoodIn wsX7_familyErrors (wsV RX7 257 RX0 yX0_errors wsX0_errors) := goodIn_app (goodIn_of _ (by decide +kernel)) ggX7_familyErrors_X0_errors
theorem dX7_familyErrors_0 : decode cX7_familyErrors 0 = .ok (.aload_n 0, 1) := by decide +kernel
theorem dX7_familyErrors_1 : decode cX7_familyErrors 1 = .ok (.getfield 28, 3) := by decide +kernel
theorem dX7_familyErrors_4 : decode cX7_familyErrors 4 = .ok (.invokevirtual 257, 3) := by decide +kernel
theorem dX7_familyErrors_7 : decode cX7_familyErrors 7 = .ok (.ireturn, 1) := by decide +kernel
set_option maxRecDepth 20000 in
theorem ggX7_meanSize_X2_count : GoodIn wsX7_meanSize wsX2_count := goodIn_r _ [7, 8, 9, 10, 11, 12, 13, 14, 15, 16, 25, 26] (by decide +kernel) (by decide +kernel)
set_option maxRecDepth 20000 in
theorem gX7_meanSize_X2_count : GoodIn wsX7_meanSize (wsV RX7 80 RX2 yX2_count wsX2_count) := goodIn_app (goodIn_of _ (by decide +kernel)) ggX7_meanSize_X2_count
theorem dX7_meanSize_0 : decode cX7_meanSize 0 = .ok (.iconst 0, 1) := by decide +kernel
theorem dX7_meanSize_1 : decode cX7_meanSize 1 = .ok (.istore_n 1, 1) := by decide +kernel
theorem dX7_meanSize_2 : decode cX7_meanSize 2 = .ok (.iconst 0, 1) := by decide +kernel
theorem dX7_meanSize_3 : decode cX7_meanSize 3 = .ok (.istore_n 2, 1) := by decide +kernel
theorem dX7_meanSize_4 : decode cX7_meanSize 4 = .ok (.iload_n 2, 1) := by decide +kernel
theorem dX7_meanSize_5 : decode cX7_meanSize 5 = .ok (.aload_n 0, 1) := by decide +kernel
theorem dX7_meanSize_6 : decode cX7_meanSize 6 = .ok (.getfield 11, 3) := by decide +kernel
theorem dX7_meanSize_9 : decode cX7_meanSize 9 = .ok (.arraylength, 1) := by decide +kernel
theorem dX7_meanSize_10 : decode cX7_meanSize 10 = .ok (.if_icmp .ge 21, 3) := by decide +kernel
theorem dX7_meanSize_13 : decode cX7_meanSize 13 = .ok (.iload_n 1, 1) := by decide +kernel
theorem dX7_meanSize_14 : decode cX7_meanSize 14 = .ok (.aload_n 0, 1) := by decide +kernel
theorem dX7_meanSize_15 : decode cX7_meanSize 15 = .ok (.getfield 11, 3) := by decide +kernel
theorem dX7_meanSize_18 : decode cX7_meanSize 18 = .ok (.iload_n 2, 1) := by decide +kernel
theorem dX7_meanSize_19 : decode cX7_meanSize 19 = .ok (.aaload, 1) := by decide +kernel
theorem dX7_meanSize_20 : decode cX7_meanSize 20 = .ok (.invokevirtual 80, 3) := by decide +kernel
theorem dX7_meanSize_23 : decode cX7_meanSize 23 = .ok (.iadd, 1) := by decide +kernel
theorem dX7_meanSize_24 : decode cX7_meanSize 24 = .ok (.istore_n 1, 1) := by decide +kernel
theorem dX7_meanSize_25 : decode cX7_meanSize 25 = .ok (.iinc 2 1, 3) := by decide +kernel
theorem dX7_meanSize_28 : decode cX7_meanSize 28 = .ok (.goto (-24), 3) := by decide +kernel
theorem dX7_meanSize_31 : decode cX7_meanSize 31 = .ok (.iload_n 1, 1) := by decide +kernel
theorem dX7_meanSize_32 : decode cX7_meanSize 32 = .ok (.i2d, 1) := by decide +kernel
theorem dX7_meanSize_33 : decode cX7_meanSize 33 = .ok (.ldc2_w 260, 3) := by decide +kernel
theorem dX7_meanSize_36 : decode cX7_meanSize 36 = .ok (.ddiv, 1) := by decide +kernel
theorem dX7_meanSize_37 : decode cX7_meanSize 37 = .ok (.dreturn, 1) := by decide +kernel
set_option maxRecDepth 20000 in
theorem ggX7_nothingShare_X7_votesFor : GoodIn wsX7_nothingShare wsX7_votesFor := goodIn_r _ [6, 7, 8, 9, 10, 11, 12, 13, 14, 15, 16, 17, 18, 19, 20, 21, 22, 23, 24] (by decide +kernel) (by decide +kernel)
set_option maxRecDepth 20000 in
theorem gX7_nothingShare_X7_votesFor : GoodIn wsX7_nothingShare (wsV RX7 142 RX7 yX7_votesFor wsX7_votesFor) := goodIn_app (goodIn_of _ (by decide +kernel)) ggX7_nothingShare_X7_votesFor
theorem dX7_nothingShare_0 : decode cX7_nothingShare 0 = .ok (.aload_n 0, 1) := by decide +kernel
theorem dX7_nothingShare_1 : decode cX7_nothingShare 1 = .ok (.iconst 0, 1) := by decide +kernel
theorem dX7_nothingShare_2 : decode cX7_nothingShare 2 = .ok (.invokevirtual 142, 3) := by decide +kernel
theorem dX7_nothingShare_5 : decode cX7_nothingShare 5 = .ok (.i2f, 1) := by decide +kernel
theorem dX7_nothingShare_6 : decode cX7_nothingShare 6 = .ok (.ldc_w 262, 3) := by decide +kernel
theorem dX7_nothingShare_9 : decode cX7_nothingShare 9 = .ok (.fdiv, 1) := by decide +kernel
theorem dX7_nothingShare_10 : decode cX7_nothingShare 10 = .ok (.freturn, 1) := by decide +kernel
theorem dX7_setAt_0 : decode cX7_setAt 0 = .ok (.iload_n 1, 1) := by decide +kernel
theorem dX7_setAt_1 : decode cX7_setAt 1 = .ok (.ifCond .lt 12, 3) := by decide +kernel
theorem dX7_setAt_4 : decode cX7_setAt 4 = .ok (.iload_n 1, 1) := by decide +kernel
theorem dX7_setAt_5 : decode cX7_setAt 5 = .ok (.aload_n 0, 1) := by decide +kernel
theorem dX7_setAt_6 : decode cX7_setAt 6 = .ok (.getfield 11, 3) := by decide +kernel
theorem dX7_setAt_9 : decode cX7_setAt 9 = .ok (.arraylength, 1) := by decide +kernel
theorem dX7_setAt_10 : decode cX7_setAt 10 = .ok (.if_icmp .lt 14, 3) := by decide +kernel
theorem dX7_setAt_13 : decode cX7_setAt 13 = .ok (.new 263, 3) := by decide +kernel
theorem dX7_setAt_16 : decode cX7_setAt 16 = .ok (.dup, 1) := by decide +kernel
theorem dX7_setAt_17 : decode cX7_setAt 17 = .ok (.ldc_w 265, 3) := by decide +kernel
theorem dX7_setAt_20 : decode cX7_setAt 20 = .ok (.invokespecial 267, 3) := by decide +kernel
theorem dX7_setAt_23 : decode cX7_setAt 23 = .ok (.athrow, 1) := by decide +kernel
theorem dX7_setAt_24 : decode cX7_setAt 24 = .ok (.aload_n 0, 1) := by decide +kernel
theorem dX7_setAt_25 : decode cX7_setAt 25 = .ok (.getfield 11, 3) := by decide +kernel
theorem dX7_setAt_28 : decode cX7_setAt 28 = .ok (.iload_n 1, 1) := by decide +kernel
theorem dX7_setAt_29 : decode cX7_setAt 29 = .ok (.aaload, 1) := by decide +kernel
theorem dX7_setAt_30 : decode cX7_setAt 30 = .ok (.areturn, 1) := by decide +kernel
theorem dX7_viewAt_0 : decode cX7_viewAt 0 = .ok (.iload_n 1, 1) := by decide +kernel
theorem dX7_viewAt_1 : decode cX7_viewAt 1 = .ok (.ifCond .lt 12, 3) := by decide +kernel
theorem dX7_viewAt_4 : decode cX7_viewAt 4 = .ok (.iload_n 1, 1) := by decide +kernel
theorem dX7_viewAt_5 : decode cX7_viewAt 5 = .ok (.aload_n 0, 1) := by decide +kernel
theorem dX7_viewAt_6 : decode cX7_viewAt 6 = .ok (.getfield 17, 3) := by decide +kernel
theorem dX7_viewAt_9 : decode cX7_viewAt 9 = .ok (.arraylength, 1) := by decide +kernel
theorem dX7_viewAt_10 : decode cX7_viewAt 10 = .ok (.if_icmp .lt 14, 3) := by decide +kernel
theorem dX7_viewAt_13 : decode cX7_viewAt 13 = .ok (.new 263, 3) := by decide +kernel
theorem dX7_viewAt_16 : decode cX7_viewAt 16 = .ok (.dup, 1) := by decide +kernel
theorem dX7_viewAt_17 : decode cX7_viewAt 17 = .ok (.ldc_w 265, 3) := by decide +kernel
theorem dX7_viewAt_20 : decode cX7_viewAt 20 = .ok (.invokespecial 267, 3) := by decide +kernel
theorem dX7_viewAt_23 : decode cX7_viewAt 23 = .ok (.athrow, 1) := by decide +kernel
theorem dX7_viewAt_24 : decode cX7_viewAt 24 = .ok (.aload_n 0, 1) := by decide +kernel
theorem dX7_viewAt_25 : decode cX7_viewAt 25 = .ok (.getfield 17, 3) := by decide +kernel
theorem dX7_viewAt_28 : decode cX7_viewAt 28 = .ok (.iload_n 1, 1) := by decide +kernel
theorem dX7_viewAt_29 : decode cX7_viewAt 29 = .ok (.aaload, 1) := by decide +kernel
theorem dX7_viewAt_30 : decode cX7_viewAt 30 = .ok (.areturn, 1) := by decide +kernel
theorem dX7_checkRange_0 : decode cX7_checkRange 0 = .ok (.iload_n 0, 1) := by decide +kernel
theorem dX7_checkRange_1 : decode cX7_checkRange 1 = .ok (.iload_n 1, 1) := by decide +kernel
theorem dX7_checkRange_2 : decode cX7_checkRange 2 = .ok (.if_icmp .lt 8, 3) := by decide +kernel
theorem dX7_checkRange_5 : decode cX7_checkRange 5 = .ok (.iload_n 0, 1) := by decide +kernel
theorem dX7_checkRange_6 : decode cX7_checkRange 6 = .ok (.iload_n 2, 1) := by decide +kernel
theorem dX7_checkRange_7 : decode cX7_checkRange 7 = .ok (.if_icmp .le 14, 3) := by decide +kernel
theorem dX7_checkRange_10 : decode cX7_checkRange 10 = .ok (.new 268, 3) := by decide +kernel
theorem dX7_checkRange_13 : decode cX7_checkRange 13 = .ok (.dup, 1) := by decide +kernel
theorem dX7_checkRange_14 : decode cX7_checkRange 14 = .ok (.ldc_w 270, 3) := by decide +kernel
theorem dX7_checkRange_17 : decode cX7_checkRange 17 = .ok (.invokespecial 272, 3) := by decide +kernel
theorem dX7_checkRange_20 : decode cX7_checkRange 20 = .ok (.athrow, 1) := by decide +kernel
theorem dX7_checkRange_21 : decode cX7_checkRange 21 = .ok (.return_, 1) := by decide +kernel
theorem dX7_isNumber_0 : decode cX7_isNumber 0 = .ok (.iload_n 0, 1) := by decide +kernel
theorem dX7_isNumber_1 : decode cX7_isNumber 1 = .ok (.bipush (-50), 2) := by decide +kernel
theorem dX7_isNumber_3 : decode cX7_isNumber 3 = .ok (.if_icmp .lt 13, 3) := by decide +kernel
theorem dX7_isNumber_6 : decode cX7_isNumber 6 = .ok (.iload_n 0, 1) := by decide +kernel
theorem dX7_isNumber_7 : decode cX7_isNumber 7 = .ok (.bipush 50, 2) := by decide +kernel
theorem dX7_isNumber_9 : decode cX7_isNumber 9 = .ok (.if_icmp .gt 7, 3) := by decide +kernel
theorem dX7_isNumber_12 : decode cX7_isNumber 12 = .ok (.iconst 1, 1) := by decide +kernel
theorem dX7_isNumber_13 : decode cX7_isNumber 13 = .ok (.goto 4, 3) := by decide +kernel
theorem dX7_isNumber_16 : decode cX7_isNumber 16 = .ok (.iconst 0, 1) := by decide +kernel
theorem dX7_isNumber_17 : decode cX7_isNumber 17 = .ok (.ireturn, 1) := by decide +kernel
set_option maxRecDepth 20000 in
theorem ggX7_indexOfMember_X7_isNumber : GoodIn wsX7_indexOfMember wsX7_isNumber := goodIn_r _ [6] (by decide +kernel) (by decide +kernel)
set_option maxRecDepth 20000 in
theorem gX7_indexOfMember_X7_isNumber : GoodIn wsX7_indexOfMember (va_wsS RX7 94 yX7_isNumber wsX7_isNumber) := goodIn_app (goodIn_of _ (by decide +kernel)) ggX7_indexOfMember_X7_isNumber
theorem dX7_indexOfMember_0 : decode cX7_indexOfMember 0 = .ok (.iload_n 0, 1) := by decide +kernel
theorem dX7_indexOfMember_1 : decode cX7_indexOfMember 1 = .ok (.bipush 100, 2) := by decide +kernel
theorem dX7_indexOfMember_3 : decode cX7_indexOfMember 3 = .ok (.if_icmp .ne 5, 3) := by decide +kernel
theorem dX7_indexOfMember_6 : decode cX7_indexOfMember 6 = .ok (.iconst 0, 1) := by decide +kernel
theorem dX7_indexOfMember_7 : decode cX7_indexOfMember 7 = .ok (.ireturn, 1) := by decide +kernel
theorem dX7_indexOfMember_8 : decode cX7_indexOfMember 8 = .ok (.iload_n 0, 1) := by decide +kernel
theorem dX7_indexOfMember_9 : decode cX7_indexOfMember 9 = .ok (.invokestatic 94, 3) := by decide +kernel
theorem dX7_indexOfMember_12 : decode cX7_indexOfMember 12 = .ok (.ifCond .ne 14, 3) := by decide +kernel
theorem dX7_indexOfMember_15 : decode cX7_indexOfMember 15 = .ok (.new 268, 3) := by decide +kernel
theorem dX7_indexOfMember_18 : decode cX7_indexOfMember 18 = .ok (.dup, 1) := by decide +kernel
theorem dX7_indexOfMember_19 : decode cX7_indexOfMember 19 = .ok (.ldc_w 273, 3) := by decide +kernel
theorem dX7_indexOfMember_22 : decode cX7_indexOfMember 22 = .ok (.invokespecial 272, 3) := by decide +kernel
theorem dX7_indexOfMember_25 : decode cX7_indexOfMember 25 = .ok (.athrow, 1) := by decide +kernel
theorem dX7_indexOfMember_26 : decode cX7_indexOfMember 26 = .ok (.iload_n 0, 1) := by decide +kernel
theorem dX7_indexOfMember_27 : decode cX7_indexOfMember 27 = .ok (.bipush 51, 2) := by decide +kernel
theorem dX7_indexOfMember_29 : decode cX7_indexOfMember 29 = .ok (.iadd, 1) := by decide +kernel
theorem dX7_indexOfMember_30 : decode cX7_indexOfMember 30 = .ok (.ireturn, 1) := by decide +kernel
theorem dX7_memberOfIndex_0 : decode cX7_memberOfIndex 0 = .ok (.iload_n 0, 1) := by decide +kernel
theorem dX7_memberOfIndex_1 : decode cX7_memberOfIndex 1 = .ok (.ifCond .ne 8, 3) := by decide +kernel
theorem dX7_memberOfIndex_4 : decode cX7_memberOfIndex 4 = .ok (.bipush 100, 2) := by decide +kernel
theorem dX7_memberOfIndex_6 : decode cX7_memberOfIndex 6 = .ok (.goto 7, 3) := by decide +kernel
theorem dX7_memberOfIndex_9 : decode cX7_memberOfIndex 9 = .ok (.iload_n 0, 1) := by decide +kernel
theorem dX7_memberOfIndex_10 : decode cX7_memberOfIndex 10 = .ok (.bipush 51, 2) := by decide +kernel
theorem dX7_memberOfIndex_12 : decode cX7_memberOfIndex 12 = .ok (.isub, 1) := by decide +kernel
theorem dX7_memberOfIndex_13 : decode cX7_memberOfIndex 13 = .ok (.ireturn, 1) := by decide +kernel
theorem dX7_numberOf_0 : decode cX7_numberOf 0 = .ok (.iload_n 0, 1) := by decide +kernel
theorem dX7_numberOf_1 : decode cX7_numberOf 1 = .ok (.iconst (-1), 1) := by decide +kernel
theorem dX7_numberOf_2 : decode cX7_numberOf 2 = .ok (.if_icmp .ne 14, 3) := by decide +kernel
theorem dX7_numberOf_5 : decode cX7_numberOf 5 = .ok (.new 100, 3) := by decide +kernel
theorem dX7_numberOf_8 : decode cX7_numberOf 8 = .ok (.dup, 1) := by decide +kernel
theorem dX7_numberOf_9 : decode cX7_numberOf 9 = .ok (.ldc_w 275, 3) := by decide +kernel
theorem dX7_numberOf_12 : decode cX7_numberOf 12 = .ok (.invokespecial 104, 3) := by decide +kernel
theorem dX7_numberOf_15 : decode cX7_numberOf 15 = .ok (.athrow, 1) := by decide +kernel
theorem dX7_numberOf_16 : decode cX7_numberOf 16 = .ok (.iload_n 0, 1) := by decide +kernel
theorem dX7_numberOf_17 : decode cX7_numberOf 17 = .ok (.bipush 51, 2) := by decide +kernel
theorem dX7_numberOf_19 : decode cX7_numberOf 19 = .ok (.isub, 1) := by decide +kernel
theorem dX7_numberOf_20 : decode cX7_numberOf 20 = .ok (.ireturn, 1) := by decide +kernel
set_option maxRecDepth 20000 in
theorem ggX7_votesFor_X2_holds : GoodIn wsX7_votesFor wsX2_holds := goodIn_r _ [6, 7, 8, 17, 18] (by decide +kernel) (by decide +kernel)
set_option maxRecDepth 20000 in
theorem gX7_votesFor_X2_holds : GoodIn wsX7_votesFor (wsV RX7 77 RX2 yX2_holds wsX2_holds) := goodIn_app (goodIn_of _ (by decide +kernel)) ggX7_votesFor_X2_holds
theorem dX7_votesFor_0 : decode cX7_votesFor 0 = .ok (.iconst 0, 1) := by decide +kernel
theorem dX7_votesFor_1 : decode cX7_votesFor 1 = .ok (.istore_n 2, 1) := by decide +kernel
theorem dX7_votesFor_2 : decode cX7_votesFor 2 = .ok (.iconst 0, 1) := by decide +kernel
theorem dX7_votesFor_3 : decode cX7_votesFor 3 = .ok (.istore_n 3, 1) := by decide +kernel
theorem dX7_votesFor_4 : decode cX7_votesFor 4 = .ok (.iload_n 3, 1) := by decide +kernel
theorem dX7_votesFor_5 : decode cX7_votesFor 5 = .ok (.aload_n 0, 1) := by decide +kernel
theorem dX7_votesFor_6 : decode cX7_votesFor 6 = .ok (.getfield 11, 3) := by decide +kernel
theorem dX7_votesFor_9 : decode cX7_votesFor 9 = .ok (.arraylength, 1) := by decide +kernel
theorem dX7_votesFor_10 : decode cX7_votesFor 10 = .ok (.if_icmp .ge 25, 3) := by decide +kernel
theorem dX7_votesFor_13 : decode cX7_votesFor 13 = .ok (.aload_n 0, 1) := by decide +kernel
theorem dX7_votesFor_14 : decode cX7_votesFor 14 = .ok (.getfield 11, 3) := by decide +kernel
theorem dX7_votesFor_17 : decode cX7_votesFor 17 = .ok (.iload_n 3, 1) := by decide +kernel
theorem dX7_votesFor_18 : decode cX7_votesFor 18 = .ok (.aaload, 1) := by decide +kernel
theorem dX7_votesFor_19 : decode cX7_votesFor 19 = .ok (.iload_n 1, 1) := by decide +kernel
theorem dX7_votesFor_20 : decode cX7_votesFor 20 = .ok (.invokevirtual 77, 3) := by decide +kernel
theorem dX7_votesFor_23 : decode cX7_votesFor 23 = .ok (.ifCond .eq 6, 3) := by decide +kernel
theorem dX7_votesFor_26 : decode cX7_votesFor 26 = .ok (.iinc 2 1, 3) := by decide +kernel
theorem dX7_votesFor_29 : decode cX7_votesFor 29 = .ok (.iinc 3 1, 3) := by decide +kernel
theorem dX7_votesFor_32 : decode cX7_votesFor 32 = .ok (.goto (-28), 3) := by decide +kernel
theorem dX7_votesFor_35 : decode cX7_votesFor 35 = .ok (.iload_n 2, 1) := by decide +kernel
theorem dX7_votesFor_36 : decode cX7_votesFor 36 = .ok (.ireturn, 1) := by decide +kernel
set_option maxRecDepth 20000 in
theorem ggX7_isRefusedByView_X7_changeByView : GoodIn wsX7_isRefusedByView wsX7_changeByView := goodIn_ca (goodIn_ca (goodIn_ca (goodIn_ca (goodIn_ca (goodIn_r _ [6, 7, 8, 9, 10, 11, 12, 13, 14, 15, 16, 17, 18, 19, 20, 5, 21, 22, 23, 24, 25, 26, 27, 28, 29, 30, 31, 32, 33, 34, 35, 36, 37, 38, 39, 40, 41, 42, 43, 44, 45, 46, 47, 48, 49, 50, 51, 52, 53, 54, 55, 56, 57, 58, 59, 60, 61, 62, 63, 64, 65, 66, 67, 68, 69, 70, 71, 72, 73, 74, 75, 76, 77, 78, 79, 80, 81, 82, 83, 84, 85, 86, 87, 88, 89, 90, 91, 92, 93, 94] (by decide +kernel) (by decide +kernel)) (goodIn_sub (fun _ h => List.mem_cons_of_mem _ (List.mem_append_left _ (List.mem_append_left _ (List.mem_append_left _ (List.mem_append_left _ (List.mem_append_right _ h)))))) (by decide +kernel))) (goodIn_sub (fun _ h => List.mem_cons_of_mem _ (List.mem_append_left _ (List.mem_append_left _ (List.mem_append_left _ (List.mem_append_right _ h))))) (by decide +kernel))) (goodIn_sub (fun _ h => List.mem_cons_of_mem _ (List.mem_append_left _ (List.mem_append_left _ (List.mem_append_right _ h)))) (by decide +kernel))) (goodIn_sub (fun _ h => List.mem_cons_of_mem _ (List.mem_append_left _ (List.mem_append_right _ h))) (by decide +kernel))) (goodIn_sub (fun _ h => List.mem_cons_of_mem _ (List.mem_append_right _ h)) (by decide +kernel))
set_option maxRecDepth 20000 in
theorem gX7_isRefusedByView_X7_changeByView : GoodIn wsX7_isRefusedByView (wsV RX7 277 RX7 yX7_changeByView wsX7_changeByView) := goodIn_app (goodIn_of _ (by decide +kernel)) ggX7_isRefusedByView_X7_changeByView
theorem dX7_isRefusedByView_0 : decode cX7_isRefusedByView 0 = .ok (.aload_n 0, 1) := by decide +kernel
theorem dX7_isRefusedByView_1 : decode cX7_isRefusedByView 1 = .ok (.aload_n 1, 1) := by decide +kernel
theorem dX7_isRefusedByView_2 : decode cX7_isRefusedByView 2 = .ok (.iload_n 2, 1) := by decide +kernel
theorem dX7_isRefusedByView_3 : decode cX7_isRefusedByView 3 = .ok (.iload_n 3, 1) := by decide +kernel
theorem dX7_isRefusedByView_4 : decode cX7_isRefusedByView 4 = .ok (.invokevirtual 277, 3) := by decide +kernel
theorem dX7_isRefusedByView_7 : decode cX7_isRefusedByView 7 = .ok (.iconst 0, 1) := by decide +kernel
theorem dX7_isRefusedByView_8 : decode cX7_isRefusedByView 8 = .ok (.ireturn, 1) := by decide +kernel
theorem dX7_isRefusedByView_9 : decode cX7_isRefusedByView 9 = .ok (.astore 4, 2) := by decide +kernel
theorem dX7_isRefusedByView_11 : decode cX7_isRefusedByView 11 = .ok (.iconst 1, 1) := by decide +kernel
theorem dX7_isRefusedByView_12 : decode cX7_isRefusedByView 12 = .ok (.ireturn, 1) := by decide +kernel
set_option maxRecDepth 20000 in
theorem ggX7_changeByView_X5_put : GoodIn wsX7_changeByView wsX5_put := goodIn_ca (goodIn_r _ [5, 6, 7] (by decide +kernel) (by decide +kernel)) (goodIn_sub (fun _ h => List.mem_cons_of_mem _ (List.mem_append_left _ (List.mem_append_left _ (List.mem_append_left _ (List.mem_append_left _ (List.mem_append_right _ h)))))) (by decide +kernel))
set_option maxRecDepth 20000 in
theorem gX7_changeByView_X5_put : GoodIn wsX7_changeByView (wsV RX7 283 RX5 yX5_put wsX5_put) := goodIn_app (goodIn_of _ (by decide +kernel)) ggX7_changeByView_X5_put
set_option maxRecDepth 20000 in
theorem ggX7_changeByView_X5_takeOut : GoodIn wsX7_changeByView wsX5_takeOut := goodIn_ca (goodIn_r _ [11, 6, 7] (by decide +kernel) (by decide +kernel)) (goodIn_sub (fun _ h => List.mem_cons_of_mem _ (List.mem_append_left _ (List.mem_append_left _ (List.mem_append_left _ (List.mem_append_left _ (List.mem_append_right _ h)))))) (by decide +kernel))
set_option maxRecDepth 20000 in
theorem gX7_changeByView_X5_takeOut : GoodIn wsX7_changeByView (wsV RX7 284 RX5 yX5_takeOut wsX5_takeOut) := goodIn_app (goodIn_of _ (by decide +kernel)) ggX7_changeByView_X5_takeOut
set_option maxRecDepth 20000 in
theorem ggX7_changeByView_X7_setAt : GoodIn wsX7_changeByView wsX7_setAt := goodIn_ca (goodIn_r _ [16, 17, 18, 19, 75, 76, 77, 78, 79, 80, 81, 82] (by decide +kernel) (by decide +kernel)) (goodIn_sub (fun _ h => List.mem_cons_of_mem _ (List.mem_append_left _ (List.mem_append_left _ (List.mem_append_left _ (List.mem_append_right _ h))))) (by decide +kernel))
set_option maxRecDepth 20000 in
theorem gX7_changeByView_X7_setAt : GoodIn wsX7_changeByView (wsV RX7 62 RX7 yX7_setAt wsX7_setAt) := goodIn_app (goodIn_of _ (by decide +kernel)) ggX7_changeByView_X7_setAt
set_option maxRecDepth 20000 in
theorem ggX7_changeByView_X5_combine : GoodIn wsX7_changeByView wsX5_combine := goodIn_ca (goodIn_r _ [23, 6, 7] (by decide +kernel) (by decide +kernel)) (goodIn_sub (fun _ h => List.mem_cons_of_mem _ (List.mem_append_left _ (List.mem_append_left _ (List.mem_append_left _ (List.mem_append_left _ (List.mem_append_right _ h)))))) (by decide +kernel))
set_option maxRecDepth 20000 in
theorem gX7_changeByView_X5_combine : GoodIn wsX7_changeByView (wsV RX7 285 RX5 yX5_combine wsX5_combine) := goodIn_app (goodIn_of _ (by decide +kernel)) ggX7_changeByView_X5_combine
set_option maxRecDepth 20000 in
theorem ggX7_changeByView_X5_empty : GoodIn wsX7_changeByView wsX5_empty := goodIn_ca (goodIn_r _ [27, 6, 7] (by decide +kernel) (by decide +kernel)) (goodIn_sub (fun _ h => List.mem_cons_of_mem _ (List.mem_append_left _ (List.mem_append_left _ (List.mem_append_left _ (List.mem_append_left _ (List.mem_append_right _ h)))))) (by decide +kernel))
set_option maxRecDepth 20000 in
theorem gX7_changeByView_X5_empty : GoodIn wsX7_changeByView (wsV RX7 286 RX5 yX5_empty wsX5_empty) := goodIn_app (goodIn_of _ (by decide +kernel)) ggX7_changeByView_X5_empty
set_option maxRecDepth 20000 in
theorem ggX7_changeByView_X5_walk : GoodIn wsX7_changeByView wsX5_walk := goodIn_r _ [31, 32, 33, 34, 35, 36, 37, 38, 39, 40, 41, 42, 43, 44, 45, 83, 84, 85, 86, 87] (by decide +kernel) (by decide +kernel)
set_option maxRecDepth 20000 in
theorem gX7_changeByView_X5_walk : GoodIn wsX7_changeByView (wsV RX7 287 RX5 yX5_walk wsX5_walk) := goodIn_app (goodIn_of _ (by decide +kernel)) ggX7_changeByView_X5_walk
set_option maxRecDepth 20000 in
theorem ggX7_changeByView_X6_step : GoodIn wsX7_changeByView wsX6_step := goodIn_ca (goodIn_r _ [49, 50, 51, 44, 42, 45, 52, 53, 54, 55, 56, 57, 58, 83, 84, 85, 86, 88, 89] (by decide +kernel) (by decide +kernel)) (goodIn_sub (fun _ h => List.mem_cons_of_mem _ (List.mem_append_left _ (List.mem_append_left _ (List.mem_append_right _ h)))) (by decide +kernel))
set_option maxRecDepth 20000 in
theorem gX7_changeByView_X6_step : GoodIn wsX7_changeByView (wsV RX7 291 RX6 yX6_step wsX6_step) := goodIn_app (goodIn_of _ (by decide +kernel)) ggX7_changeByView_X6_step
set_option maxRecDepth 20000 in
theorem ggX7_changeByView_X6_takeOutLast : GoodIn wsX7_changeByView wsX6_takeOutLast := goodIn_ca (goodIn_ca (goodIn_r _ [62, 63, 7, 64, 65, 43, 45, 42, 66, 67, 68, 55, 69, 70, 53, 54, 56, 57, 58, 71, 72, 73, 74, 83, 84, 85, 86, 88, 89] (by decide +kernel) (by decide +kernel)) (goodIn_sub (fun _ h => List.mem_cons_of_mem _ (List.mem_append_left _ (List.mem_append_right _ h))) (by decide +kernel))) (goodIn_sub (fun _ h => List.mem_cons_of_mem _ (List.mem_append_right _ h)) (by decide +kernel))
set_option maxRecDepth 20000 in
theorem gX7_changeByView_X6_takeOutLast : GoodIn wsX7_changeByView (wsV RX7 296 RX6 yX6_takeOutLast wsX6_takeOutLast) := goodIn_app (goodIn_of _ (by decide +kernel)) ggX7_changeByView_X6_takeOutLast
theorem dX7_changeByView_0 : decode cX7_changeByView 0 = .ok (.iload_n 2, 1) := by decide +kernel
theorem dX7_changeByView_1 : decode cX7_changeByView 1 = .ok (.tableswitch 106 0 5 #[39, 48, 57, 71, 85, 99], 39) := by decide +kernel
theorem dX7_changeByView_40 : decode cX7_changeByView 40 = .ok (.aload_n 1, 1) := by decide +kernel
theorem dX7_changeByView_41 : decode cX7_changeByView 41 = .ok (.iload_n 3, 1) := by decide +kernel
theorem dX7_changeByView_42 : decode cX7_changeByView 42 = .ok (.invokevirtual 283, 3) := by decide +kernel
theorem dX7_changeByView_45 : decode cX7_changeByView 45 = .ok (.pop, 1) := by decide +kernel
theorem dX7_changeByView_46 : decode cX7_changeByView 46 = .ok (.goto 78, 3) := by decide +kernel
theorem dX7_changeByView_49 : decode cX7_changeByView 49 = .ok (.aload_n 1, 1) := by decide +kernel
theorem dX7_changeByView_50 : decode cX7_changeByView 50 = .ok (.iload_n 3, 1) := by decide +kernel
theorem dX7_changeByView_51 : decode cX7_changeByView 51 = .ok (.invokevirtual 284, 3) := by decide +kernel
theorem dX7_changeByView_54 : decode cX7_changeByView 54 = .ok (.pop, 1) := by decide +kernel
theorem dX7_changeByView_55 : decode cX7_changeByView 55 = .ok (.goto 69, 3) := by decide +kernel
theorem dX7_changeByView_58 : decode cX7_changeByView 58 = .ok (.aload_n 1, 1) := by decide +kernel
theorem dX7_changeByView_59 : decode cX7_changeByView 59 = .ok (.iconst 0, 1) := by decide +kernel
theorem dX7_changeByView_60 : decode cX7_changeByView 60 = .ok (.aload_n 0, 1) := by decide +kernel
theorem dX7_changeByView_61 : decode cX7_changeByView 61 = .ok (.iconst 0, 1) := by decide +kernel
theorem dX7_changeByView_62 : decode cX7_changeByView 62 = .ok (.invokevirtual 62, 3) := by decide +kernel
theorem dX7_changeByView_65 : decode cX7_changeByView 65 = .ok (.invokevirtual 285, 3) := by decide +kernel
theorem dX7_changeByView_68 : decode cX7_changeByView 68 = .ok (.pop, 1) := by decide +kernel
theorem dX7_changeByView_69 : decode cX7_changeByView 69 = .ok (.goto 55, 3) := by decide +kernel
theorem dX7_changeByView_72 : decode cX7_changeByView 72 = .ok (.aload_n 1, 1) := by decide +kernel
theorem dX7_changeByView_73 : decode cX7_changeByView 73 = .ok (.iconst 1, 1) := by decide +kernel
theorem dX7_changeByView_74 : decode cX7_changeByView 74 = .ok (.aload_n 0, 1) := by decide +kernel
theorem dX7_changeByView_75 : decode cX7_changeByView 75 = .ok (.iconst 0, 1) := by decide +kernel
theorem dX7_changeByView_76 : decode cX7_changeByView 76 = .ok (.invokevirtual 62, 3) := by decide +kernel
theorem dX7_changeByView_79 : decode cX7_changeByView 79 = .ok (.invokevirtual 285, 3) := by decide +kernel
theorem dX7_changeByView_82 : decode cX7_changeByView 82 = .ok (.pop, 1) := by decide +kernel
theorem dX7_changeByView_83 : decode cX7_changeByView 83 = .ok (.goto 41, 3) := by decide +kernel
theorem dX7_changeByView_86 : decode cX7_changeByView 86 = .ok (.aload_n 1, 1) := by decide +kernel
theorem dX7_changeByView_87 : decode cX7_changeByView 87 = .ok (.iconst 2, 1) := by decide +kernel
theorem dX7_changeByView_88 : decode cX7_changeByView 88 = .ok (.aload_n 0, 1) := by decide +kernel
theorem dX7_changeByView_89 : decode cX7_changeByView 89 = .ok (.iconst 0, 1) := by decide +kernel
theorem dX7_changeByView_90 : decode cX7_changeByView 90 = .ok (.invokevirtual 62, 3) := by decide +kernel
theorem dX7_changeByView_93 : decode cX7_changeByView 93 = .ok (.invokevirtual 285, 3) := by decide +kernel
theorem dX7_changeByView_96 : decode cX7_changeByView 96 = .ok (.pop, 1) := by decide +kernel
theorem dX7_changeByView_97 : decode cX7_changeByView 97 = .ok (.goto 27, 3) := by decide +kernel
theorem dX7_changeByView_100 : decode cX7_changeByView 100 = .ok (.aload_n 1, 1) := by decide +kernel
theorem dX7_changeByView_101 : decode cX7_changeByView 101 = .ok (.invokevirtual 286, 3) := by decide +kernel
theorem dX7_changeByView_104 : decode cX7_changeByView 104 = .ok (.goto 20, 3) := by decide +kernel
theorem dX7_changeByView_107 : decode cX7_changeByView 107 = .ok (.aload_n 1, 1) := by decide +kernel
theorem dX7_changeByView_108 : decode cX7_changeByView 108 = .ok (.invokevirtual 287, 3) := by decide +kernel
theorem dX7_changeByView_111 : decode cX7_changeByView 111 = .ok (.astore 4, 2) := by decide +kernel
theorem dX7_changeByView_113 : decode cX7_changeByView 113 = .ok (.aload 4, 2) := by decide +kernel
theorem dX7_changeByView_115 : decode cX7_changeByView 115 = .ok (.invokevirtual 291, 3) := by decide +kernel
theorem dX7_changeByView_118 : decode cX7_changeByView 118 = .ok (.pop, 1) := by decide +kernel
theorem dX7_changeByView_119 : decode cX7_changeByView 119 = .ok (.aload 4, 2) := by decide +kernel
theorem dX7_changeByView_121 : decode cX7_changeByView 121 = .ok (.invokevirtual 296, 3) := by decide +kernel
theorem dX7_changeByView_124 : decode cX7_changeByView 124 = .ok (.return_, 1) := by decide +kernel
set_option maxRecDepth 20000 in
theorem ggX7_walkWrongly_X2_count : GoodIn wsX7_walkWrongly wsX2_count := goodIn_r _ [8, 9, 10, 11, 12, 13, 14, 15, 16, 17, 59, 60] (by decide +kernel) (by decide +kernel)
set_option maxRecDepth 20000 in
theorem gX7_walkWrongly_X2_count : GoodIn wsX7_walkWrongly (wsV RX7 80 RX2 yX2_count wsX2_count) := goodIn_app (goodIn_of _ (by decide +kernel)) ggX7_walkWrongly_X2_count
set_option maxRecDepth 20000 in
theorem ggX7_walkWrongly_X6_init : GoodIn wsX7_walkWrongly wsX6_init := goodIn_r _ [20, 21, 22, 23, 24, 25, 26, 27, 55, 56, 57, 58] (by decide +kernel) (by decide +kernel)
set_option maxRecDepth 20000 in
theorem gX7_walkWrongly_X6_init : GoodIn wsX7_walkWrongly (wsX6_init) := ggX7_walkWrongly_X6_init
set_option maxRecDepth 20000 in
theorem ggX7_walkWrongly_X6_step : GoodIn wsX7_walkWrongly wsX6_step := goodIn_ca (goodIn_r _ [31, 32, 33, 26, 24, 27, 34, 35, 36, 7, 37, 9, 10, 55, 56, 57, 58, 59, 60] (by decide +kernel) (by decide +kernel)) (goodIn_sub (fun _ h => List.mem_cons_of_mem _ (List.mem_append_left _ (List.mem_append_left _ (List.mem_append_right _ h)))) (by decide +kernel))
set_option maxRecDepth 20000 in
theorem gX7_walkWrongly_X6_step : GoodIn wsX7_walkWrongly (wsV RX7 291 RX6 yX6_step wsX6_step) := goodIn_app (goodIn_of _ (by decide +kernel)) ggX7_walkWrongly_X6_step
set_option maxRecDepth 20000 in
theorem ggX7_walkWrongly_X6_takeOutLast : GoodIn wsX7_walkWrongly wsX6_takeOutLast := goodIn_ca (goodIn_ca (goodIn_r _ [41, 42, 43, 44, 45, 25, 27, 24, 46, 47, 48, 7, 49, 50, 35, 36, 37, 9, 10, 51, 52, 53, 54, 55, 56, 57, 58, 59, 60] (by decide +kernel) (by decide +kernel)) (goodIn_sub (fun _ h => List.mem_cons_of_mem _ (List.mem_append_left _ (List.mem_append_right _ h))) (by decide +kernel))) (goodIn_sub (fun _ h => List.mem_cons_of_mem _ (List.mem_append_right _ h)) (by decide +kernel))
set_option maxRecDepth 20000 in
theorem gX7_walkWrongly_X6_takeOutLast : GoodIn wsX7_walkWrongly (wsV RX7 296 RX6 yX6_takeOutLast wsX6_takeOutLast) := goodIn_app (goodIn_of _ (by decide +kernel)) ggX7_walkWrongly_X6_takeOutLast
theorem dX7_walkWrongly_0 : decode cX7_walkWrongly 0 = .ok (.aload_n 0, 1) := by decide +kernel
theorem dX7_walkWrongly_1 : decode cX7_walkWrongly 1 = .ok (.invokevirtual 80, 3) := by decide +kernel
theorem dX7_walkWrongly_4 : decode cX7_walkWrongly 4 = .ok (.istore_n 2, 1) := by decide +kernel
theorem dX7_walkWrongly_5 : decode cX7_walkWrongly 5 = .ok (.new 292, 3) := by decide +kernel
theorem dX7_walkWrongly_8 : decode cX7_walkWrongly 8 = .ok (.dup, 1) := by decide +kernel
theorem dX7_walkWrongly_9 : decode cX7_walkWrongly 9 = .ok (.aload_n 0, 1) := by decide +kernel
theorem dX7_walkWrongly_10 : decode cX7_walkWrongly 10 = .ok (.iconst 1, 1) := by decide +kernel
theorem dX7_walkWrongly_11 : decode cX7_walkWrongly 11 = .ok (.invokespecial 299, 3) := by decide +kernel
theorem dX7_walkWrongly_14 : decode cX7_walkWrongly 14 = .ok (.astore_n 3, 1) := by decide +kernel
theorem dX7_walkWrongly_15 : decode cX7_walkWrongly 15 = .ok (.iload_n 1, 1) := by decide +kernel
theorem dX7_walkWrongly_16 : decode cX7_walkWrongly 16 = .ok (.ifCond .ne 26, 3) := by decide +kernel
theorem dX7_walkWrongly_19 : decode cX7_walkWrongly 19 = .ok (.iconst 0, 1) := by decide +kernel
theorem dX7_walkWrongly_20 : decode cX7_walkWrongly 20 = .ok (.istore 4, 2) := by decide +kernel
theorem dX7_walkWrongly_22 : decode cX7_walkWrongly 22 = .ok (.iload 4, 2) := by decide +kernel
theorem dX7_walkWrongly_24 : decode cX7_walkWrongly 24 = .ok (.iload_n 2, 1) := by decide +kernel
theorem dX7_walkWrongly_25 : decode cX7_walkWrongly 25 = .ok (.if_icmp .gt 14, 3) := by decide +kernel
theorem dX7_walkWrongly_28 : decode cX7_walkWrongly 28 = .ok (.aload_n 3, 1) := by decide +kernel
theorem dX7_walkWrongly_29 : decode cX7_walkWrongly 29 = .ok (.invokevirtual 291, 3) := by decide +kernel
theorem dX7_walkWrongly_32 : decode cX7_walkWrongly 32 = .ok (.pop, 1) := by decide +kernel
theorem dX7_walkWrongly_33 : decode cX7_walkWrongly 33 = .ok (.iinc 4 1, 3) := by decide +kernel
theorem dX7_walkWrongly_36 : decode cX7_walkWrongly 36 = .ok (.goto (-14), 3) := by decide +kernel
theorem dX7_walkWrongly_39 : decode cX7_walkWrongly 39 = .ok (.goto 28, 3) := by decide +kernel
theorem dX7_walkWrongly_42 : decode cX7_walkWrongly 42 = .ok (.iload_n 1, 1) := by decide +kernel
theorem dX7_walkWrongly_43 : decode cX7_walkWrongly 43 = .ok (.iconst 1, 1) := by decide +kernel
theorem dX7_walkWrongly_44 : decode cX7_walkWrongly 44 = .ok (.if_icmp .ne 10, 3) := by decide +kernel
theorem dX7_walkWrongly_47 : decode cX7_walkWrongly 47 = .ok (.aload_n 3, 1) := by decide +kernel
theorem dX7_walkWrongly_48 : decode cX7_walkWrongly 48 = .ok (.invokevirtual 296, 3) := by decide +kernel
theorem dX7_walkWrongly_51 : decode cX7_walkWrongly 51 = .ok (.goto 16, 3) := by decide +kernel
theorem dX7_walkWrongly_54 : decode cX7_walkWrongly 54 = .ok (.aload_n 3, 1) := by decide +kernel
theorem dX7_walkWrongly_55 : decode cX7_walkWrongly 55 = .ok (.invokevirtual 291, 3) := by decide +kernel
theorem dX7_walkWrongly_58 : decode cX7_walkWrongly 58 = .ok (.pop, 1) := by decide +kernel
theorem dX7_walkWrongly_59 : decode cX7_walkWrongly 59 = .ok (.aload_n 3, 1) := by decide +kernel
theorem dX7_walkWrongly_60 : decode cX7_walkWrongly 60 = .ok (.invokevirtual 296, 3) := by decide +kernel
theorem dX7_walkWrongly_63 : decode cX7_walkWrongly 63 = .ok (.aload_n 3, 1) := by decide +kernel
theorem dX7_walkWrongly_64 : decode cX7_walkWrongly 64 = .ok (.invokevirtual 296, 3) := by decide +kernel
theorem dX7_walkWrongly_67 : decode cX7_walkWrongly 67 = .ok (.return_, 1) := by decide +kernel
set_option maxRecDepth 20000 in
theorem ggX7_isRefusedWithoutOther_X2_combine : GoodIn wsX7_isRefusedWithoutOther wsX2_combine := goodIn_ca (goodIn_r _ [6, 7, 8, 9, 10, 11, 16, 17] (by decide +kernel) (by decide +kernel)) (goodIn_sub (fun _ h => List.mem_cons_of_mem _ (List.mem_append_right _ h)) (by decide +kernel))
set_option maxRecDepth 20000 in
theorem gX7_isRefusedWithoutOther_X2_combine : GoodIn wsX7_isRefusedWithoutOther (wsV RX7 119 RX2 yX2_combine wsX2_combine) := goodIn_app (goodIn_of _ (by decide +kernel)) ggX7_isRefusedWithoutOther_X2_combine
set_option maxRecDepth 20000 in
theorem ggX7_isRefusedWithoutOther_X2_holdsAll : GoodIn wsX7_isRefusedWithoutOther wsX2_holdsAll := goodIn_ca (goodIn_r _ [15, 7, 8, 9, 11, 10, 16, 17] (by decide +kernel) (by decide +kernel)) (goodIn_sub (fun _ h => List.mem_cons_of_mem _ (List.mem_append_right _ h)) (by decide +kernel))
set_option maxRecDepth 20000 in
theorem gX7_isRefusedWithoutOther_X2_holdsAll : GoodIn wsX7_isRefusedWithoutOther (wsV RX7 132 RX2 yX2_holdsAll wsX2_holdsAll) := goodIn_app (goodIn_of _ (by decide +kernel)) ggX7_isRefusedWithoutOther_X2_holdsAll
theorem dX7_isRefusedWithoutOther_0 : decode cX7_isRefusedWithoutOther 0 = .ok (.aconst_null, 1) := by decide +kernel
theorem dX7_isRefusedWithoutOther_1 : decode cX7_isRefusedWithoutOther 1 = .ok (.astore_n 2, 1) := by decide +kernel
theorem dX7_isRefusedWithoutOther_2 : decode cX7_isRefusedWithoutOther 2 = .ok (.iload_n 1, 1) := by decide +kernel
theorem dX7_isRefusedWithoutOther_3 : decode cX7_isRefusedWithoutOther 3 = .ok (.tableswitch 55 0 2 #[25, 35, 45], 25) := by decide +kernel
theorem dX7_isRefusedWithoutOther_28 : decode cX7_isRefusedWithoutOther 28 = .ok (.aload_n 0, 1) := by decide +kernel
theorem dX7_isRefusedWithoutOther_29 : decode cX7_isRefusedWithoutOther 29 = .ok (.iconst 0, 1) := by decide +kernel
theorem dX7_isRefusedWithoutOther_30 : decode cX7_isRefusedWithoutOther 30 = .ok (.aload_n 2, 1) := by decide +kernel
theorem dX7_isRefusedWithoutOther_31 : decode cX7_isRefusedWithoutOther 31 = .ok (.invokevirtual 119, 3) := by decide +kernel
theorem dX7_isRefusedWithoutOther_34 : decode cX7_isRefusedWithoutOther 34 = .ok (.pop, 1) := by decide +kernel
theorem dX7_isRefusedWithoutOther_35 : decode cX7_isRefusedWithoutOther 35 = .ok (.goto 29, 3) := by decide +kernel
theorem dX7_isRefusedWithoutOther_38 : decode cX7_isRefusedWithoutOther 38 = .ok (.aload_n 0, 1) := by decide +kernel
theorem dX7_isRefusedWithoutOther_39 : decode cX7_isRefusedWithoutOther 39 = .ok (.iconst 1, 1) := by decide +kernel
theorem dX7_isRefusedWithoutOther_40 : decode cX7_isRefusedWithoutOther 40 = .ok (.aload_n 2, 1) := by decide +kernel
theorem dX7_isRefusedWithoutOther_41 : decode cX7_isRefusedWithoutOther 41 = .ok (.invokevirtual 119, 3) := by decide +kernel
theorem dX7_isRefusedWithoutOther_44 : decode cX7_isRefusedWithoutOther 44 = .ok (.pop, 1) := by decide +kernel
theorem dX7_isRefusedWithoutOther_45 : decode cX7_isRefusedWithoutOther 45 = .ok (.goto 19, 3) := by decide +kernel
theorem dX7_isRefusedWithoutOther_48 : decode cX7_isRefusedWithoutOther 48 = .ok (.aload_n 0, 1) := by decide +kernel
theorem dX7_isRefusedWithoutOther_49 : decode cX7_isRefusedWithoutOther 49 = .ok (.iconst 2, 1) := by decide +kernel
theorem dX7_isRefusedWithoutOther_50 : decode cX7_isRefusedWithoutOther 50 = .ok (.aload_n 2, 1) := by decide +kernel
theorem dX7_isRefusedWithoutOther_51 : decode cX7_isRefusedWithoutOther 51 = .ok (.invokevirtual 119, 3) := by decide +kernel
theorem dX7_isRefusedWithoutOther_54 : decode cX7_isRefusedWithoutOther 54 = .ok (.pop, 1) := by decide +kernel
theorem dX7_isRefusedWithoutOther_55 : decode cX7_isRefusedWithoutOther 55 = .ok (.goto 9, 3) := by decide +kernel
theorem dX7_isRefusedWithoutOther_58 : decode cX7_isRefusedWithoutOther 58 = .ok (.aload_n 0, 1) := by decide +kernel
theorem dX7_isRefusedWithoutOther_59 : decode cX7_isRefusedWithoutOther 59 = .ok (.aload_n 2, 1) := by decide +kernel
theorem dX7_isRefusedWithoutOther_60 : decode cX7_isRefusedWithoutOther 60 = .ok (.invokevirtual 132, 3) := by decide +kernel
theorem dX7_isRefusedWithoutOther_63 : decode cX7_isRefusedWithoutOther 63 = .ok (.pop, 1) := by decide +kernel
theorem dX7_isRefusedWithoutOther_64 : decode cX7_isRefusedWithoutOther 64 = .ok (.iconst 0, 1) := by decide +kernel
theorem dX7_isRefusedWithoutOther_65 : decode cX7_isRefusedWithoutOther 65 = .ok (.ireturn, 1) := by decide +kernel
theorem dX7_isRefusedWithoutOther_66 : decode cX7_isRefusedWithoutOther 66 = .ok (.astore_n 3, 1) := by decide +kernel
theorem dX7_isRefusedWithoutOther_67 : decode cX7_isRefusedWithoutOther 67 = .ok (.iconst 1, 1) := by decide +kernel
theorem dX7_isRefusedWithoutOther_68 : decode cX7_isRefusedWithoutOther 68 = .ok (.ireturn, 1) := by decide +kernel
