set_option maxRecDepth 20000 in
theorem ggX3_init_X2_init : GoodIn wsX3_init wsX2_init := goodIn_r _ [19, 20, 2, 3, 21, 22, 38, 39] (by decide +kernel) (by decide +kernel)
set_option maxRecDepth 20000 in
theorem gX3_init_X2_init : GoodIn wsX3_init (wsX2_init) := ggX3_init_X2_init
theorem dX3_init_0 : decode cX3_init 0 = .ok (.aload_n 0, 1) := by decide +kernel
theorem dX3_init_1 : decode cX3_init 1 = .ok (.invokespecial 3, 3) := by decide +kernel
theorem dX3_init_4 : decode cX3_init 4 = .ok (.aload_n 0, 1) := by decide +kernel
theorem dX3_init_5 : decode cX3_init 5 = .ok (.aload_n 1, 1) := by decide +kernel
theorem dX3_init_6 : decode cX3_init 6 = .ok (.putfield 9, 3) := by decide +kernel
theorem dX3_init_9 : decode cX3_init 9 = .ok (.aload_n 0, 1) := by decide +kernel
theorem dX3_init_10 : decode cX3_init 10 = .ok (.bipush 8, 2) := by decide +kernel
theorem dX3_init_12 : decode cX3_init 12 = .ok (.anewarray 15, 3) := by decide +kernel
theorem dX3_init_15 : decode cX3_init 15 = .ok (.putfield 17, 3) := by decide +kernel
theorem dX3_init_18 : decode cX3_init 18 = .ok (.iconst 0, 1) := by decide +kernel
theorem dX3_init_19 : decode cX3_init 19 = .ok (.istore_n 2, 1) := by decide +kernel
theorem dX3_init_20 : decode cX3_init 20 = .ok (.iload_n 2, 1) := by decide +kernel
theorem dX3_init_21 : decode cX3_init 21 = .ok (.bipush 8, 2) := by decide +kernel
theorem dX3_init_23 : decode cX3_init 23 = .ok (.if_icmp .ge 22, 3) := by decide +kernel
theorem dX3_init_26 : decode cX3_init 26 = .ok (.aload_n 0, 1) := by decide +kernel
theorem dX3_init_27 : decode cX3_init 27 = .ok (.getfield 17, 3) := by decide +kernel
theorem dX3_init_30 : decode cX3_init 30 = .ok (.iload_n 2, 1) := by decide +kernel
theorem dX3_init_31 : decode cX3_init 31 = .ok (.new 15, 3) := by decide +kernel
theorem dX3_init_34 : decode cX3_init 34 = .ok (.dup, 1) := by decide +kernel
theorem dX3_init_35 : decode cX3_init 35 = .ok (.invokespecial 21, 3) := by decide +kernel
theorem dX3_init_38 : decode cX3_init 38 = .ok (.aastore, 1) := by decide +kernel
theorem dX3_init_39 : decode cX3_init 39 = .ok (.iinc 2 1, 3) := by decide +kernel
theorem dX3_init_42 : decode cX3_init 42 = .ok (.goto (-22), 3) := by decide +kernel
theorem dX3_init_45 : decode cX3_init 45 = .ok (.aload_n 0, 1) := by decide +kernel
theorem dX3_init_46 : decode cX3_init 46 = .ok (.new 15, 3) := by decide +kernel
theorem dX3_init_49 : decode cX3_init 49 = .ok (.dup, 1) := by decide +kernel
theorem dX3_init_50 : decode cX3_init 50 = .ok (.invokespecial 21, 3) := by decide +kernel
theorem dX3_init_53 : decode cX3_init 53 = .ok (.putfield 22, 3) := by decide +kernel
theorem dX3_init_56 : decode cX3_init 56 = .ok (.aload_n 0, 1) := by decide +kernel
theorem dX3_init_57 : decode cX3_init 57 = .ok (.bipush 9, 2) := by decide +kernel
theorem dX3_init_59 : decode cX3_init 59 = .ok (.anewarray 15, 3) := by decide +kernel
theorem dX3_init_62 : decode cX3_init 62 = .ok (.putfield 26, 3) := by decide +kernel
theorem dX3_init_65 : decode cX3_init 65 = .ok (.aload_n 0, 1) := by decide +kernel
theorem dX3_init_66 : decode cX3_init 66 = .ok (.bipush 9, 2) := by decide +kernel
theorem dX3_init_68 : decode cX3_init 68 = .ok (.anewarray 15, 3) := by decide +kernel
theorem dX3_init_71 : decode cX3_init 71 = .ok (.putfield 29, 3) := by decide +kernel
theorem dX3_init_74 : decode cX3_init 74 = .ok (.iconst 0, 1) := by decide +kernel
theorem dX3_init_75 : decode cX3_init 75 = .ok (.istore_n 2, 1) := by decide +kernel
theorem dX3_init_76 : decode cX3_init 76 = .ok (.iload_n 2, 1) := by decide +kernel
theorem dX3_init_77 : decode cX3_init 77 = .ok (.bipush 8, 2) := by decide +kernel
theorem dX3_init_79 : decode cX3_init 79 = .ok (.if_icmp .gt 35, 3) := by decide +kernel
theorem dX3_init_82 : decode cX3_init 82 = .ok (.aload_n 0, 1) := by decide +kernel
theorem dX3_init_83 : decode cX3_init 83 = .ok (.getfield 26, 3) := by decide +kernel
theorem dX3_init_86 : decode cX3_init 86 = .ok (.iload_n 2, 1) := by decide +kernel
theorem dX3_init_87 : decode cX3_init 87 = .ok (.new 15, 3) := by decide +kernel
theorem dX3_init_90 : decode cX3_init 90 = .ok (.dup, 1) := by decide +kernel
theorem dX3_init_91 : decode cX3_init 91 = .ok (.invokespecial 21, 3) := by decide +kernel
theorem dX3_init_94 : decode cX3_init 94 = .ok (.aastore, 1) := by decide +kernel
theorem dX3_init_95 : decode cX3_init 95 = .ok (.aload_n 0, 1) := by decide +kernel
theorem dX3_init_96 : decode cX3_init 96 = .ok (.getfield 29, 3) := by decide +kernel
theorem dX3_init_99 : decode cX3_init 99 = .ok (.iload_n 2, 1) := by decide +kernel
theorem dX3_init_100 : decode cX3_init 100 = .ok (.new 15, 3) := by decide +kernel
theorem dX3_init_103 : decode cX3_init 103 = .ok (.dup, 1) := by decide +kernel
theorem dX3_init_104 : decode cX3_init 104 = .ok (.invokespecial 21, 3) := by decide +kernel
theorem dX3_init_107 : decode cX3_init 107 = .ok (.aastore, 1) := by decide +kernel
theorem dX3_init_108 : decode cX3_init 108 = .ok (.iinc 2 1, 3) := by decide +kernel
theorem dX3_init_111 : decode cX3_init 111 = .ok (.goto (-35), 3) := by decide +kernel
theorem dX3_init_114 : decode cX3_init 114 = .ok (.aload_n 0, 1) := by decide +kernel
theorem dX3_init_115 : decode cX3_init 115 = .ok (.bipush 9, 2) := by decide +kernel
theorem dX3_init_117 : decode cX3_init 117 = .ok (.newarray .int, 2) := by decide +kernel
theorem dX3_init_119 : decode cX3_init 119 = .ok (.putfield 32, 3) := by decide +kernel
theorem dX3_init_122 : decode cX3_init 122 = .ok (.aload_n 0, 1) := by decide +kernel
theorem dX3_init_123 : decode cX3_init 123 = .ok (.bipush 9, 2) := by decide +kernel
theorem dX3_init_125 : decode cX3_init 125 = .ok (.newarray .boolean, 2) := by decide +kernel
theorem dX3_init_127 : decode cX3_init 127 = .ok (.putfield 36, 3) := by decide +kernel
theorem dX3_init_130 : decode cX3_init 130 = .ok (.aload_n 0, 1) := by decide +kernel
theorem dX3_init_131 : decode cX3_init 131 = .ok (.iconst (-1), 1) := by decide +kernel
theorem dX3_init_132 : decode cX3_init 132 = .ok (.putfield 40, 3) := by decide +kernel
theorem dX3_init_135 : decode cX3_init 135 = .ok (.return_, 1) := by decide +kernel
theorem dX3_kind_0 : decode cX3_kind 0 = .ok (.aload_n 0, 1) := by decide +kernel
theorem dX3_kind_1 : decode cX3_kind 1 = .ok (.getfield 44, 3) := by decide +kernel
theorem dX3_kind_4 : decode cX3_kind 4 = .ok (.ireturn, 1) := by decide +kernel
theorem dX3_place_0 : decode cX3_place 0 = .ok (.aload_n 0, 1) := by decide +kernel
theorem dX3_place_1 : decode cX3_place 1 = .ok (.getfield 40, 3) := by decide +kernel
theorem dX3_place_4 : decode cX3_place 4 = .ok (.ireturn, 1) := by decide +kernel
theorem dX3_statements_0 : decode cX3_statements 0 = .ok (.aload_n 0, 1) := by decide +kernel
theorem dX3_statements_1 : decode cX3_statements 1 = .ok (.getfield 47, 3) := by decide +kernel
theorem dX3_statements_4 : decode cX3_statements 4 = .ok (.ireturn, 1) := by decide +kernel
set_option maxRecDepth 20000 in
theorem ggX3_tellSets_X2_become : GoodIn wsX3_tellSets wsX2_become := goodIn_r _ [6, 7, 8, 24, 25] (by decide +kernel) (by decide +kernel)
set_option maxRecDepth 20000 in
theorem gX3_tellSets_X2_become : GoodIn wsX3_tellSets (wsV RX3 50 RX2 yX2_become wsX2_become) := goodIn_app (goodIn_of _ (by decide +kernel)) ggX3_tellSets_X2_become
theorem dX3_tellSets_0 : decode cX3_tellSets 0 = .ok (.iconst 0, 1) := by decide +kernel
theorem dX3_tellSets_1 : decode cX3_tellSets 1 = .ok (.istore_n 2, 1) := by decide +kernel
theorem dX3_tellSets_2 : decode cX3_tellSets 2 = .ok (.iload_n 2, 1) := by decide +kernel
theorem dX3_tellSets_3 : decode cX3_tellSets 3 = .ok (.aload_n 1, 1) := by decide +kernel
theorem dX3_tellSets_4 : decode cX3_tellSets 4 = .ok (.arraylength, 1) := by decide +kernel
theorem dX3_tellSets_5 : decode cX3_tellSets 5 = .ok (.if_icmp .ge 30, 3) := by decide +kernel
theorem dX3_tellSets_8 : decode cX3_tellSets 8 = .ok (.iload_n 2, 1) := by decide +kernel
theorem dX3_tellSets_9 : decode cX3_tellSets 9 = .ok (.aload_n 0, 1) := by decide +kernel
theorem dX3_tellSets_10 : decode cX3_tellSets 10 = .ok (.getfield 17, 3) := by decide +kernel
theorem dX3_tellSets_13 : decode cX3_tellSets 13 = .ok (.arraylength, 1) := by decide +kernel
theorem dX3_tellSets_14 : decode cX3_tellSets 14 = .ok (.if_icmp .ge 21, 3) := by decide +kernel
theorem dX3_tellSets_17 : decode cX3_tellSets 17 = .ok (.aload_n 1, 1) := by decide +kernel
theorem dX3_tellSets_18 : decode cX3_tellSets 18 = .ok (.iload_n 2, 1) := by decide +kernel
theorem dX3_tellSets_19 : decode cX3_tellSets 19 = .ok (.aaload, 1) := by decide +kernel
theorem dX3_tellSets_20 : decode cX3_tellSets 20 = .ok (.aload_n 0, 1) := by decide +kernel
theorem dX3_tellSets_21 : decode cX3_tellSets 21 = .ok (.getfield 17, 3) := by decide +kernel
theorem dX3_tellSets_24 : decode cX3_tellSets 24 = .ok (.iload_n 2, 1) := by decide +kernel
theorem dX3_tellSets_25 : decode cX3_tellSets 25 = .ok (.aaload, 1) := by decide +kernel
theorem dX3_tellSets_26 : decode cX3_tellSets 26 = .ok (.invokevirtual 50, 3) := by decide +kernel
theorem dX3_tellSets_29 : decode cX3_tellSets 29 = .ok (.iinc 2 1, 3) := by decide +kernel
theorem dX3_tellSets_32 : decode cX3_tellSets 32 = .ok (.goto (-30), 3) := by decide +kernel
theorem dX3_tellSets_35 : decode cX3_tellSets 35 = .ok (.return_, 1) := by decide +kernel
set_option maxRecDepth 20000 in
theorem ggX3_read_X3_begin : GoodIn wsX3_read wsX3_begin := goodIn_r _ [9, 10, 2, 4, 11, 12, 1, 13, 14, 15, 16, 17, 18, 19, 20, 152, 153, 154, 155, 156, 157, 158, 159, 160, 161, 162, 163, 164, 165, 166, 167, 168] (by decide +kernel) (by decide +kernel)
set_option maxRecDepth 20000 in
theorem gX3_read_X3_begin : GoodIn wsX3_read (wsV RX3 54 RX3 yX3_begin wsX3_begin) := goodIn_app (goodIn_of _ (by decide +kernel)) ggX3_read_X3_begin
set_option maxRecDepth 20000 in
theorem ggX3_read_X3_passBlanks : GoodIn wsX3_read wsX3_passBlanks := goodIn_r _ [24, 2, 3, 25, 26, 27, 28, 29, 30, 31, 32, 33, 34, 35, 152, 153, 154, 155, 156, 157, 158, 159, 160, 161, 162, 163, 164, 165, 166, 169, 170] (by decide +kernel) (by decide +kernel)
set_option maxRecDepth 20000 in
theorem gX3_read_X3_passBlanks : GoodIn wsX3_read (wsV RX3 58 RX3 yX3_passBlanks wsX3_passBlanks) := goodIn_app (goodIn_of _ (by decide +kernel)) ggX3_read_X3_passBlanks
set_option maxRecDepth 20000 in
theorem ggX3_read_X4_length : GoodIn wsX3_read wsX4_length := goodIn_r _ [29, 30, 169, 170] (by decide +kernel) (by decide +kernel)
set_option maxRecDepth 20000 in
theorem gX3_read_X4_length : GoodIn wsX3_read (wsV RX3 64 RX4 yX4_length wsX4_length) := goodIn_app (goodIn_of _ (by decide +kernel)) ggX3_read_X4_length
set_option maxRecDepth 20000 in
theorem ggX3_read_X4_byteAt : GoodIn wsX3_read wsX4_byteAt := goodIn_r _ [34, 30, 35, 169, 170] (by decide +kernel) (by decide +kernel)
set_option maxRecDepth 20000 in
theorem gX3_read_X4_byteAt : GoodIn wsX3_read (wsV RX3 70 RX4 yX4_byteAt wsX4_byteAt) := goodIn_app (goodIn_of _ (by decide +kernel)) ggX3_read_X4_byteAt
set_option maxRecDepth 20000 in
theorem ggX3_read_X3_readSign : GoodIn wsX3_read wsX3_readSign := goodIn_ca (goodIn_r _ [39, 4, 40, 41, 42, 8, 43, 44, 45, 46, 47, 48, 49, 50, 51, 2, 52, 53, 54, 55, 56, 57, 58, 59, 1, 13, 60, 61, 62, 63, 64, 65, 66, 67, 68, 11, 69, 70, 71, 72, 73, 17, 74, 19, 20, 75, 76, 77, 78, 10, 79, 80, 81, 82, 83, 84, 85, 86, 87, 88, 89, 90, 91, 14, 15, 16, 18, 92, 93, 94, 95, 96, 97, 98, 99, 100, 101, 102, 103, 104, 105, 106, 107, 108, 109, 110, 111, 12, 112, 113, 114, 115, 116, 117, 118, 119, 120, 121, 122, 123, 124, 125, 126, 127, 128, 129, 130, 131, 132, 133, 134, 135, 136, 137, 138, 139, 3, 31, 32, 33, 28, 34, 30, 35, 25, 26, 27, 29, 140, 141, 142, 143, 144, 145, 146, 147, 148, 149, 150, 151, 152, 153, 154, 155, 156, 157, 158, 159, 160, 161, 162, 163, 164, 165, 166, 167, 168, 169, 170] (by decide +kernel) (by decide +kernel)) (goodIn_sub (fun _ h => List.mem_cons_of_mem _ (List.mem_append_right _ h)) (by decide +kernel))
set_option maxRecDepth 20000 in
theorem gX3_read_X3_readSign : GoodIn wsX3_read (wsV RX3 74 RX3 yX3_readSign wsX3_readSign) := goodIn_app (goodIn_of _ (by decide +kernel)) ggX3_read_X3_readSign
set_option maxRecDepth 20000 in
theorem ggX3_read_X3_refuseByte : GoodIn wsX3_read wsX3_refuseByte := goodIn_r _ [55, 2, 56, 57, 58, 8, 59, 1, 13, 152, 153, 154, 155, 156, 157, 158, 159, 160, 161, 162, 163, 164, 165, 166] (by decide +kernel) (by decide +kernel)
set_option maxRecDepth 20000 in
theorem gX3_read_X3_refuseByte : GoodIn wsX3_read (wsV RX3 81 RX3 yX3_refuseByte wsX3_refuseByte) := goodIn_app (goodIn_of _ (by decide +kernel)) ggX3_read_X3_refuseByte
theorem dX3_read_0 : decode cX3_read 0 = .ok (.aload_n 0, 1) := by decide +kernel
theorem dX3_read_1 : decode cX3_read 1 = .ok (.aload_n 1, 1) := by decide +kernel
theorem dX3_read_2 : decode cX3_read 2 = .ok (.invokevirtual 54, 3) := by decide +kernel
theorem dX3_read_5 : decode cX3_read 5 = .ok (.iconst 0, 1) := by decide +kernel
theorem dX3_read_6 : decode cX3_read 6 = .ok (.istore_n 2, 1) := by decide +kernel
theorem dX3_read_7 : decode cX3_read 7 = .ok (.iload_n 2, 1) := by decide +kernel
theorem dX3_read_8 : decode cX3_read 8 = .ok (.sipush 200, 3) := by decide +kernel
theorem dX3_read_11 : decode cX3_read 11 = .ok (.if_icmp .gt 52, 3) := by decide +kernel
theorem dX3_read_14 : decode cX3_read 14 = .ok (.aload_n 0, 1) := by decide +kernel
theorem dX3_read_15 : decode cX3_read 15 = .ok (.getfield 44, 3) := by decide +kernel
theorem dX3_read_18 : decode cX3_read 18 = .ok (.ifCond .ne 45, 3) := by decide +kernel
theorem dX3_read_21 : decode cX3_read 21 = .ok (.aload_n 0, 1) := by decide +kernel
theorem dX3_read_22 : decode cX3_read 22 = .ok (.invokevirtual 58, 3) := by decide +kernel
theorem dX3_read_25 : decode cX3_read 25 = .ok (.aload_n 0, 1) := by decide +kernel
theorem dX3_read_26 : decode cX3_read 26 = .ok (.getfield 61, 3) := by decide +kernel
theorem dX3_read_29 : decode cX3_read 29 = .ok (.aload_n 0, 1) := by decide +kernel
theorem dX3_read_30 : decode cX3_read 30 = .ok (.getfield 9, 3) := by decide +kernel
theorem dX3_read_33 : decode cX3_read 33 = .ok (.invokevirtual 64, 3) := by decide +kernel
theorem dX3_read_36 : decode cX3_read 36 = .ok (.if_icmp .lt 6, 3) := by decide +kernel
theorem dX3_read_39 : decode cX3_read 39 = .ok (.goto 24, 3) := by decide +kernel
theorem dX3_read_42 : decode cX3_read 42 = .ok (.aload_n 0, 1) := by decide +kernel
theorem dX3_read_43 : decode cX3_read 43 = .ok (.aload_n 0, 1) := by decide +kernel
theorem dX3_read_44 : decode cX3_read 44 = .ok (.getfield 9, 3) := by decide +kernel
theorem dX3_read_47 : decode cX3_read 47 = .ok (.aload_n 0, 1) := by decide +kernel
theorem dX3_read_48 : decode cX3_read 48 = .ok (.getfield 61, 3) := by decide +kernel
theorem dX3_read_51 : decode cX3_read 51 = .ok (.invokevirtual 70, 3) := by decide +kernel
theorem dX3_read_54 : decode cX3_read 54 = .ok (.invokevirtual 74, 3) := by decide +kernel
theorem dX3_read_57 : decode cX3_read 57 = .ok (.iinc 2 1, 3) := by decide +kernel
theorem dX3_read_60 : decode cX3_read 60 = .ok (.goto (-53), 3) := by decide +kernel
theorem dX3_read_63 : decode cX3_read 63 = .ok (.aload_n 0, 1) := by decide +kernel
theorem dX3_read_64 : decode cX3_read 64 = .ok (.getfield 44, 3) := by decide +kernel
theorem dX3_read_67 : decode cX3_read 67 = .ok (.ifCond .ne 14, 3) := by decide +kernel
theorem dX3_read_70 : decode cX3_read 70 = .ok (.aload_n 0, 1) := by decide +kernel
theorem dX3_read_71 : decode cX3_read 71 = .ok (.getfield 78, 3) := by decide +kernel
theorem dX3_read_74 : decode cX3_read 74 = .ok (.ifCond .eq 7, 3) := by decide +kernel
theorem dX3_read_77 : decode cX3_read 77 = .ok (.aload_n 0, 1) := by decide +kernel
theorem dX3_read_78 : decode cX3_read 78 = .ok (.invokevirtual 81, 3) := by decide +kernel
theorem dX3_read_81 : decode cX3_read 81 = .ok (.return_, 1) := by decide +kernel
set_option maxRecDepth 20000 in
theorem ggX3_begin_X2_become : GoodIn wsX3_begin wsX2_become := goodIn_r _ [12, 13, 14, 30, 31] (by decide +kernel) (by decide +kernel)
set_option maxRecDepth 20000 in
theorem gX3_begin_X2_become : GoodIn wsX3_begin (wsV RX3 50 RX2 yX2_become wsX2_become) := goodIn_app (goodIn_of _ (by decide +kernel)) ggX3_begin_X2_become
theorem dX3_begin_0 : decode cX3_begin 0 = .ok (.iconst 0, 1) := by decide +kernel
theorem dX3_begin_1 : decode cX3_begin 1 = .ok (.istore_n 2, 1) := by decide +kernel
theorem dX3_begin_2 : decode cX3_begin 2 = .ok (.iload_n 2, 1) := by decide +kernel
theorem dX3_begin_3 : decode cX3_begin 3 = .ok (.aload_n 1, 1) := by decide +kernel
theorem dX3_begin_4 : decode cX3_begin 4 = .ok (.arraylength, 1) := by decide +kernel
theorem dX3_begin_5 : decode cX3_begin 5 = .ok (.if_icmp .ge 30, 3) := by decide +kernel
theorem dX3_begin_8 : decode cX3_begin 8 = .ok (.iload_n 2, 1) := by decide +kernel
theorem dX3_begin_9 : decode cX3_begin 9 = .ok (.aload_n 0, 1) := by decide +kernel
theorem dX3_begin_10 : decode cX3_begin 10 = .ok (.getfield 17, 3) := by decide +kernel
theorem dX3_begin_13 : decode cX3_begin 13 = .ok (.arraylength, 1) := by decide +kernel
theorem dX3_begin_14 : decode cX3_begin 14 = .ok (.if_icmp .ge 21, 3) := by decide +kernel
theorem dX3_begin_17 : decode cX3_begin 17 = .ok (.aload_n 0, 1) := by decide +kernel
theorem dX3_begin_18 : decode cX3_begin 18 = .ok (.getfield 17, 3) := by decide +kernel
theorem dX3_begin_21 : decode cX3_begin 21 = .ok (.iload_n 2, 1) := by decide +kernel
theorem dX3_begin_22 : decode cX3_begin 22 = .ok (.aaload, 1) := by decide +kernel
theorem dX3_begin_23 : decode cX3_begin 23 = .ok (.aload_n 1, 1) := by decide +kernel
theorem dX3_begin_24 : decode cX3_begin 24 = .ok (.iload_n 2, 1) := by decide +kernel
theorem dX3_begin_25 : decode cX3_begin 25 = .ok (.aaload, 1) := by decide +kernel
theorem dX3_begin_26 : decode cX3_begin 26 = .ok (.invokevirtual 50, 3) := by decide +kernel
theorem dX3_begin_29 : decode cX3_begin 29 = .ok (.iinc 2 1, 3) := by decide +kernel
theorem dX3_begin_32 : decode cX3_begin 32 = .ok (.goto (-30), 3) := by decide +kernel
theorem dX3_begin_35 : decode cX3_begin 35 = .ok (.aload_n 0, 1) := by decide +kernel
theorem dX3_begin_36 : decode cX3_begin 36 = .ok (.iconst 0, 1) := by decide +kernel
theorem dX3_begin_37 : decode cX3_begin 37 = .ok (.putfield 61, 3) := by decide +kernel
theorem dX3_begin_40 : decode cX3_begin 40 = .ok (.aload_n 0, 1) := by decide +kernel
theorem dX3_begin_41 : decode cX3_begin 41 = .ok (.iconst 0, 1) := by decide +kernel
theorem dX3_begin_42 : decode cX3_begin 42 = .ok (.putfield 78, 3) := by decide +kernel
theorem dX3_begin_45 : decode cX3_begin 45 = .ok (.aload_n 0, 1) := by decide +kernel
theorem dX3_begin_46 : decode cX3_begin 46 = .ok (.iconst 0, 1) := by decide +kernel
theorem dX3_begin_47 : decode cX3_begin 47 = .ok (.putfield 84, 3) := by decide +kernel
theorem dX3_begin_50 : decode cX3_begin 50 = .ok (.aload_n 0, 1) := by decide +kernel
theorem dX3_begin_51 : decode cX3_begin 51 = .ok (.iconst 0, 1) := by decide +kernel
theorem dX3_begin_52 : decode cX3_begin 52 = .ok (.putfield 47, 3) := by decide +kernel
theorem dX3_begin_55 : decode cX3_begin 55 = .ok (.aload_n 0, 1) := by decide +kernel
theorem dX3_begin_56 : decode cX3_begin 56 = .ok (.iconst 0, 1) := by decide +kernel
theorem dX3_begin_57 : decode cX3_begin 57 = .ok (.putfield 44, 3) := by decide +kernel
theorem dX3_begin_60 : decode cX3_begin 60 = .ok (.aload_n 0, 1) := by decide +kernel
theorem dX3_begin_61 : decode cX3_begin 61 = .ok (.iconst (-1), 1) := by decide +kernel
theorem dX3_begin_62 : decode cX3_begin 62 = .ok (.putfield 40, 3) := by decide +kernel
theorem dX3_begin_65 : decode cX3_begin 65 = .ok (.return_, 1) := by decide +kernel
theorem dX3_fail_0 : decode cX3_fail 0 = .ok (.aload_n 0, 1) := by decide +kernel
theorem dX3_fail_1 : decode cX3_fail 1 = .ok (.iload_n 1, 1) := by decide +kernel
theorem dX3_fail_2 : decode cX3_fail 2 = .ok (.putfield 44, 3) := by decide +kernel
theorem dX3_fail_5 : decode cX3_fail 5 = .ok (.aload_n 0, 1) := by decide +kernel
theorem dX3_fail_6 : decode cX3_fail 6 = .ok (.iload_n 2, 1) := by decide +kernel
theorem dX3_fail_7 : decode cX3_fail 7 = .ok (.putfield 40, 3) := by decide +kernel
theorem dX3_fail_10 : decode cX3_fail 10 = .ok (.return_, 1) := by decide +kernel
set_option maxRecDepth 20000 in
theorem ggX3_refuseByte_X3_fail : GoodIn wsX3_refuseByte wsX3_fail := goodIn_r _ [6, 7, 8, 9, 10, 11, 12, 13, 14, 15, 16, 17, 18, 19, 20, 21, 22, 23] (by decide +kernel) (by decide +kernel)
set_option maxRecDepth 20000 in
theorem gX3_refuseByte_X3_fail : GoodIn wsX3_refuseByte (wsV RX3 87 RX3 yX3_fail wsX3_fail) := goodIn_app (goodIn_of _ (by decide +kernel)) ggX3_refuseByte_X3_fail
theorem dX3_refuseByte_0 : decode cX3_refuseByte 0 = .ok (.aload_n 0, 1) := by decide +kernel
theorem dX3_refuseByte_1 : decode cX3_refuseByte 1 = .ok (.iconst 1, 1) := by decide +kernel
theorem dX3_refuseByte_2 : decode cX3_refuseByte 2 = .ok (.aload_n 0, 1) := by decide +kernel
theorem dX3_refuseByte_3 : decode cX3_refuseByte 3 = .ok (.getfield 61, 3) := by decide +kernel
theorem dX3_refuseByte_6 : decode cX3_refuseByte 6 = .ok (.invokevirtual 87, 3) := by decide +kernel
theorem dX3_refuseByte_9 : decode cX3_refuseByte 9 = .ok (.return_, 1) := by decide +kernel
theorem dX3_pass_0 : decode cX3_pass 0 = .ok (.aload_n 0, 1) := by decide +kernel
theorem dX3_pass_1 : decode cX3_pass 1 = .ok (.dup, 1) := by decide +kernel
theorem dX3_pass_2 : decode cX3_pass 2 = .ok (.getfield 61, 3) := by decide +kernel
theorem dX3_pass_5 : decode cX3_pass 5 = .ok (.iconst 1, 1) := by decide +kernel
theorem dX3_pass_6 : decode cX3_pass 6 = .ok (.iadd, 1) := by decide +kernel
theorem dX3_pass_7 : decode cX3_pass 7 = .ok (.putfield 61, 3) := by decide +kernel
theorem dX3_pass_10 : decode cX3_pass 10 = .ok (.aload_n 0, 1) := by decide +kernel
theorem dX3_pass_11 : decode cX3_pass 11 = .ok (.iload_n 1, 1) := by decide +kernel
theorem dX3_pass_12 : decode cX3_pass 12 = .ok (.putfield 78, 3) := by decide +kernel
theorem dX3_pass_15 : decode cX3_pass 15 = .ok (.return_, 1) := by decide +kernel
set_option maxRecDepth 20000 in
theorem ggX3_passBlanks_X4_length : GoodIn wsX3_passBlanks wsX4_length := goodIn_r _ [7, 8, 29, 30] (by decide +kernel) (by decide +kernel)
set_option maxRecDepth 20000 in
theorem gX3_passBlanks_X4_length : GoodIn wsX3_passBlanks (wsV RX3 64 RX4 yX4_length wsX4_length) := goodIn_app (goodIn_of _ (by decide +kernel)) ggX3_passBlanks_X4_length
set_option maxRecDepth 20000 in
theorem ggX3_passBlanks_X4_byteAt : GoodIn wsX3_passBlanks wsX4_byteAt := goodIn_r _ [12, 8, 13, 29, 30] (by decide +kernel) (by decide +kernel)
set_option maxRecDepth 20000 in
theorem gX3_passBlanks_X4_byteAt : GoodIn wsX3_passBlanks (wsV RX3 70 RX4 yX4_byteAt wsX4_byteAt) := goodIn_app (goodIn_of _ (by decide +kernel)) ggX3_passBlanks_X4_byteAt
theorem dX3_passBlanks_0 : decode cX3_passBlanks 0 = .ok (.aload_n 0, 1) := by decide +kernel
theorem dX3_passBlanks_1 : decode cX3_passBlanks 1 = .ok (.getfield 61, 3) := by decide +kernel
theorem dX3_passBlanks_4 : decode cX3_passBlanks 4 = .ok (.aload_n 0, 1) := by decide +kernel
theorem dX3_passBlanks_5 : decode cX3_passBlanks 5 = .ok (.getfield 9, 3) := by decide +kernel
theorem dX3_passBlanks_8 : decode cX3_passBlanks 8 = .ok (.invokevirtual 64, 3) := by decide +kernel
theorem dX3_passBlanks_11 : decode cX3_passBlanks 11 = .ok (.if_icmp .ge 48, 3) := by decide +kernel
theorem dX3_passBlanks_14 : decode cX3_passBlanks 14 = .ok (.aload_n 0, 1) := by decide +kernel
theorem dX3_passBlanks_15 : decode cX3_passBlanks 15 = .ok (.getfield 9, 3) := by decide +kernel
theorem dX3_passBlanks_18 : decode cX3_passBlanks 18 = .ok (.aload_n 0, 1) := by decide +kernel
theorem dX3_passBlanks_19 : decode cX3_passBlanks 19 = .ok (.getfield 61, 3) := by decide +kernel
theorem dX3_passBlanks_22 : decode cX3_passBlanks 22 = .ok (.invokevirtual 70, 3) := by decide +kernel
theorem dX3_passBlanks_25 : decode cX3_passBlanks 25 = .ok (.bipush 32, 2) := by decide +kernel
theorem dX3_passBlanks_27 : decode cX3_passBlanks 27 = .ok (.if_icmp .eq 19, 3) := by decide +kernel
theorem dX3_passBlanks_30 : decode cX3_passBlanks 30 = .ok (.aload_n 0, 1) := by decide +kernel
theorem dX3_passBlanks_31 : decode cX3_passBlanks 31 = .ok (.getfield 9, 3) := by decide +kernel
theorem dX3_passBlanks_34 : decode cX3_passBlanks 34 = .ok (.aload_n 0, 1) := by decide +kernel
theorem dX3_passBlanks_35 : decode cX3_passBlanks 35 = .ok (.getfield 61, 3) := by decide +kernel
theorem dX3_passBlanks_38 : decode cX3_passBlanks 38 = .ok (.invokevirtual 70, 3) := by decide +kernel
theorem dX3_passBlanks_41 : decode cX3_passBlanks 41 = .ok (.bipush 10, 2) := by decide +kernel
theorem dX3_passBlanks_43 : decode cX3_passBlanks 43 = .ok (.if_icmp .ne 16, 3) := by decide +kernel
theorem dX3_passBlanks_46 : decode cX3_passBlanks 46 = .ok (.aload_n 0, 1) := by decide +kernel
theorem dX3_passBlanks_47 : decode cX3_passBlanks 47 = .ok (.dup, 1) := by decide +kernel
theorem dX3_passBlanks_48 : decode cX3_passBlanks 48 = .ok (.getfield 61, 3) := by decide +kernel
theorem dX3_passBlanks_51 : decode cX3_passBlanks 51 = .ok (.iconst 1, 1) := by decide +kernel
theorem dX3_passBlanks_52 : decode cX3_passBlanks 52 = .ok (.iadd, 1) := by decide +kernel
theorem dX3_passBlanks_53 : decode cX3_passBlanks 53 = .ok (.putfield 61, 3) := by decide +kernel
theorem dX3_passBlanks_56 : decode cX3_passBlanks 56 = .ok (.goto (-56), 3) := by decide +kernel
theorem dX3_passBlanks_59 : decode cX3_passBlanks 59 = .ok (.return_, 1) := by decide +kernel
set_option maxRecDepth 20000 in
theorem ggX3_readSign_X3_readTarget : GoodIn wsX3_readSign wsX3_readTarget := goodIn_r _ [6, 7, 8, 9, 5, 10, 11, 12, 13, 14, 15, 1, 16, 17, 18, 19, 20, 21, 22, 23, 24, 25, 140, 141, 142, 143, 144, 145, 146, 147, 148, 149, 150, 151, 152, 153, 154] (by decide +kernel) (by decide +kernel)
set_option maxRecDepth 20000 in
theorem gX3_readSign_X3_readTarget : GoodIn wsX3_readSign (wsV RX3 91 RX3 yX3_readTarget wsX3_readTarget) := goodIn_app (goodIn_of _ (by decide +kernel)) ggX3_readSign_X3_readTarget
set_option maxRecDepth 20000 in
theorem ggX3_readSign_X3_readEquals : GoodIn wsX3_readSign wsX3_readEquals := goodIn_r _ [29, 30, 31, 32, 5, 33, 34, 35, 36, 37, 38, 39, 40, 41, 42, 43, 44, 11, 12, 13, 14, 15, 1, 16, 17, 18, 19, 20, 21, 22, 23, 24, 25, 140, 141, 142, 143, 144, 145, 146, 147, 148, 149, 150, 151, 152, 153, 154, 155, 156] (by decide +kernel) (by decide +kernel)
set_option maxRecDepth 20000 in
theorem gX3_readSign_X3_readEquals : GoodIn wsX3_readSign (wsV RX3 94 RX3 yX3_readEquals wsX3_readEquals) := goodIn_app (goodIn_of _ (by decide +kernel)) ggX3_readSign_X3_readEquals
set_option maxRecDepth 20000 in
theorem ggX3_readSign_X3_readFactor : GoodIn wsX3_readSign wsX3_readFactor := goodIn_ca (goodIn_r _ [48, 49, 50, 8, 9, 5, 10, 51, 52, 53, 54, 37, 35, 55, 56, 57, 58, 41, 59, 60, 61, 43, 44, 62, 63, 64, 65, 66, 11, 12, 13, 14, 15, 1, 38, 39, 40, 42, 67, 68, 69, 70, 20, 21, 22, 23, 24, 25, 30, 31, 32, 33, 34, 36, 16, 17, 18, 19, 140, 141, 142, 143, 144, 145, 146, 147, 148, 149, 150, 151, 152, 153, 154, 155, 156] (by decide +kernel) (by decide +kernel)) (goodIn_sub (fun _ h => List.mem_cons_of_mem _ (List.mem_append_right _ h)) (by decide +kernel))
set_option maxRecDepth 20000 in
theorem gX3_readSign_X3_readFactor : GoodIn wsX3_readSign (wsV RX3 97 RX3 yX3_readFactor wsX3_readFactor) := goodIn_app (goodIn_of _ (by decide +kernel)) ggX3_readSign_X3_readFactor
set_option maxRecDepth 20000 in
theorem ggX3_readSign_X3_readBehindFactor : GoodIn wsX3_readSign wsX3_readBehindFactor := goodIn_ca (goodIn_r _ [74, 35, 11, 12, 13, 5, 14, 15, 1, 75, 76, 77, 78, 34, 36, 55, 37, 56, 57, 58, 41, 59, 60, 61, 43, 44, 62, 79, 80, 81, 82, 51, 52, 53, 54, 63, 64, 65, 66, 83, 84, 85, 86, 49, 7, 87, 16, 17, 18, 19, 20, 21, 22, 23, 24, 25, 140, 141, 142, 143, 144, 145, 146, 147, 148, 149, 150, 151, 152, 153, 154, 155, 156] (by decide +kernel) (by decide +kernel)) (goodIn_sub (fun _ h => List.mem_cons_of_mem _ (List.mem_append_right _ h)) (by decide +kernel))
set_option maxRecDepth 20000 in
theorem gX3_readSign_X3_readBehindFactor : GoodIn wsX3_readSign (wsV RX3 100 RX3 yX3_readBehindFactor wsX3_readBehindFactor) := goodIn_app (goodIn_of _ (by decide +kernel)) ggX3_readSign_X3_readBehindFactor
set_option maxRecDepth 20000 in
theorem ggX3_readSign_X3_readFirstItem : GoodIn wsX3_readSign wsX3_readFirstItem := goodIn_ca (goodIn_r _ [91, 50, 51, 52, 53, 5, 54, 37, 35, 55, 56, 57, 58, 41, 59, 60, 61, 43, 44, 62, 63, 64, 65, 66, 11, 12, 13, 14, 15, 1, 92, 93, 94, 95, 96, 97, 98, 99, 100, 101, 102, 103, 104, 105, 106, 107, 108, 109, 110, 111, 112, 113, 114, 115, 116, 117, 118, 119, 120, 121, 122, 123, 20, 21, 22, 23, 24, 25, 124, 125, 126, 127, 16, 17, 18, 19, 140, 141, 142, 143, 144, 145, 146, 147, 148, 149, 150, 151, 152, 153, 154, 155, 156, 157, 158] (by decide +kernel) (by decide +kernel)) (goodIn_sub (fun _ h => List.mem_cons_of_mem _ (List.mem_append_right _ h)) (by decide +kernel))
set_option maxRecDepth 20000 in
theorem gX3_readSign_X3_readFirstItem : GoodIn wsX3_readSign (wsV RX3 103 RX3 yX3_readFirstItem wsX3_readFirstItem) := goodIn_app (goodIn_of _ (by decide +kernel)) ggX3_readSign_X3_readFirstItem
set_option maxRecDepth 20000 in
theorem ggX3_readSign_X3_readItem : GoodIn wsX3_readSign wsX3_readItem := goodIn_r _ [95, 50, 96, 1, 97, 98, 99, 41, 100, 101, 102, 103, 104, 43, 44, 105, 106, 107, 108, 11, 12, 13, 5, 14, 15, 109, 110, 111, 112, 113, 114, 115, 116, 117, 118, 119, 120, 121, 122, 123, 20, 21, 22, 23, 24, 25, 124, 125, 126, 127, 16, 17, 18, 19, 140, 141, 142, 143, 144, 145, 146, 147, 148, 149, 150, 151, 152, 153, 154, 155, 156, 157, 158] (by decide +kernel) (by decide +kernel)
set_option maxRecDepth 20000 in
theorem gX3_readSign_X3_readItem : GoodIn wsX3_readSign (wsV RX3 106 RX3 yX3_readItem wsX3_readItem) := goodIn_app (goodIn_of _ (by decide +kernel)) ggX3_readSign_X3_readItem
set_option maxRecDepth 20000 in
theorem ggX3_readSign_X3_readBehindNumber : GoodIn wsX3_readSign wsX3_readBehindNumber := goodIn_ca (goodIn_r _ [131, 15, 116, 117, 118, 119, 120, 121, 122, 123, 11, 12, 13, 5, 14, 1, 16, 17, 18, 19, 20, 21, 22, 23, 24, 25, 132, 133, 134, 135, 50, 51, 52, 53, 54, 37, 35, 55, 56, 57, 58, 41, 59, 60, 61, 43, 44, 62, 63, 64, 65, 66, 140, 141, 142, 143, 144, 145, 146, 147, 148, 149, 150, 151, 152, 153, 154, 157, 158, 155, 156] (by decide +kernel) (by decide +kernel)) (goodIn_sub (fun _ h => List.mem_cons_of_mem _ (List.mem_append_right _ h)) (by decide +kernel))
set_option maxRecDepth 20000 in
theorem gX3_readSign_X3_readBehindNumber : GoodIn wsX3_readSign (wsV RX3 109 RX3 yX3_readBehindNumber wsX3_readBehindNumber) := goodIn_app (goodIn_of _ (by decide +kernel)) ggX3_readSign_X3_readBehindNumber
set_option maxRecDepth 20000 in
theorem ggX3_readSign_X3_readSecondNumber : GoodIn wsX3_readSign wsX3_readSecondNumber := goodIn_r _ [139, 96, 50, 1, 109, 110, 5, 111, 112, 113, 114, 115, 15, 116, 117, 118, 119, 120, 121, 122, 123, 20, 21, 22, 23, 24, 25, 124, 125, 126, 127, 97, 98, 99, 41, 100, 101, 102, 103, 104, 43, 44, 105, 106, 107, 108, 16, 17, 18, 19, 140, 141, 142, 143, 144, 145, 146, 147, 148, 149, 150, 151, 152, 153, 154, 157, 158, 155, 156] (by decide +kernel) (by decide +kernel)
set_option maxRecDepth 20000 in
theorem gX3_readSign_X3_readSecondNumber : GoodIn wsX3_readSign (wsV RX3 112 RX3 yX3_readSecondNumber wsX3_readSecondNumber) := goodIn_app (goodIn_of _ (by decide +kernel)) ggX3_readSign_X3_readSecondNumber
set_option maxRecDepth 20000 in
theorem ggX3_readSign_X3_readBehindItem : GoodIn wsX3_readSign wsX3_readBehindItem := goodIn_ca (goodIn_r _ [135, 50, 11, 12, 13, 5, 14, 15, 1, 51, 52, 53, 54, 37, 35, 55, 56, 57, 58, 41, 59, 60, 61, 43, 44, 62, 63, 64, 65, 66, 16, 17, 18, 19, 20, 21, 22, 23, 24, 25, 140, 141, 142, 143, 144, 145, 146, 147, 148, 149, 150, 151, 152, 153, 154, 155, 156] (by decide +kernel) (by decide +kernel)) (goodIn_sub (fun _ h => List.mem_cons_of_mem _ (List.mem_append_right _ h)) (by decide +kernel))
set_option maxRecDepth 20000 in
theorem gX3_readSign_X3_readBehindItem : GoodIn wsX3_readSign (wsV RX3 115 RX3 yX3_readBehindItem wsX3_readBehindItem) := goodIn_app (goodIn_of _ (by decide +kernel)) ggX3_readSign_X3_readBehindItem
theorem dX3_readSign_0 : decode cX3_readSign 0 = .ok (.aload_n 0, 1) := by decide +kernel
theorem dX3_readSign_1 : decode cX3_readSign 1 = .ok (.getfield 78, 3) := by decide +kernel
theorem dX3_readSign_4 : decode cX3_readSign 4 = .ok (.tableswitch 112 0 7 #[48, 56, 64, 72, 80, 88, 96, 104], 48) := by decide +kernel
theorem dX3_readSign_52 : decode cX3_readSign 52 = .ok (.aload_n 0, 1) := by decide +kernel
theorem dX3_readSign_53 : decode cX3_readSign 53 = .ok (.iload_n 1, 1) := by decide +kernel
theorem dX3_readSign_54 : decode cX3_readSign 54 = .ok (.invokevirtual 91, 3) := by decide +kernel
theorem dX3_readSign_57 : decode cX3_readSign 57 = .ok (.goto 64, 3) := by decide +kernel
theorem dX3_readSign_60 : decode cX3_readSign 60 = .ok (.aload_n 0, 1) := by decide +kernel
theorem dX3_readSign_61 : decode cX3_readSign 61 = .ok (.iload_n 1, 1) := by decide +kernel
theorem dX3_readSign_62 : decode cX3_readSign 62 = .ok (.invokevirtual 94, 3) := by decide +kernel
theorem dX3_readSign_65 : decode cX3_readSign 65 = .ok (.goto 56, 3) := by decide +kernel
theorem dX3_readSign_68 : decode cX3_readSign 68 = .ok (.aload_n 0, 1) := by decide +kernel
theorem dX3_readSign_69 : decode cX3_readSign 69 = .ok (.iload_n 1, 1) := by decide +kernel
theorem dX3_readSign_70 : decode cX3_readSign 70 = .ok (.invokevirtual 97, 3) := by decide +kernel
theorem dX3_readSign_73 : decode cX3_readSign 73 = .ok (.goto 48, 3) := by decide +kernel
theorem dX3_readSign_76 : decode cX3_readSign 76 = .ok (.aload_n 0, 1) := by decide +kernel
theorem dX3_readSign_77 : decode cX3_readSign 77 = .ok (.iload_n 1, 1) := by decide +kernel
theorem dX3_readSign_78 : decode cX3_readSign 78 = .ok (.invokevirtual 100, 3) := by decide +kernel
theorem dX3_readSign_81 : decode cX3_readSign 81 = .ok (.goto 40, 3) := by decide +kernel
theorem dX3_readSign_84 : decode cX3_readSign 84 = .ok (.aload_n 0, 1) := by decide +kernel
theorem dX3_readSign_85 : decode cX3_readSign 85 = .ok (.iload_n 1, 1) := by decide +kernel
theorem dX3_readSign_86 : decode cX3_readSign 86 = .ok (.invokevirtual 103, 3) := by decide +kernel
theorem dX3_readSign_89 : decode cX3_readSign 89 = .ok (.goto 32, 3) := by decide +kernel
theorem dX3_readSign_92 : decode cX3_readSign 92 = .ok (.aload_n 0, 1) := by decide +kernel
theorem dX3_readSign_93 : decode cX3_readSign 93 = .ok (.iload_n 1, 1) := by decide +kernel
theorem dX3_readSign_94 : decode cX3_readSign 94 = .ok (.invokevirtual 106, 3) := by decide +kernel
theorem dX3_readSign_97 : decode cX3_readSign 97 = .ok (.goto 24, 3) := by decide +kernel
theorem dX3_readSign_100 : decode cX3_readSign 100 = .ok (.aload_n 0, 1) := by decide +kernel
theorem dX3_readSign_101 : decode cX3_readSign 101 = .ok (.iload_n 1, 1) := by decide +kernel
theorem dX3_readSign_102 : decode cX3_readSign 102 = .ok (.invokevirtual 109, 3) := by decide +kernel
theorem dX3_readSign_105 : decode cX3_readSign 105 = .ok (.goto 16, 3) := by decide +kernel
theorem dX3_readSign_108 : decode cX3_readSign 108 = .ok (.aload_n 0, 1) := by decide +kernel
theorem dX3_readSign_109 : decode cX3_readSign 109 = .ok (.iload_n 1, 1) := by decide +kernel
theorem dX3_readSign_110 : decode cX3_readSign 110 = .ok (.invokevirtual 112, 3) := by decide +kernel
theorem dX3_readSign_113 : decode cX3_readSign 113 = .ok (.goto 8, 3) := by decide +kernel
theorem dX3_readSign_116 : decode cX3_readSign 116 = .ok (.aload_n 0, 1) := by decide +kernel
theorem dX3_readSign_117 : decode cX3_readSign 117 = .ok (.iload_n 1, 1) := by decide +kernel
theorem dX3_readSign_118 : decode cX3_readSign 118 = .ok (.invokevirtual 115, 3) := by decide +kernel
theorem dX3_readSign_121 : decode cX3_readSign 121 = .ok (.return_, 1) := by decide +kernel
theorem dX3_isName_0 : decode cX3_isName 0 = .ok (.iload_n 0, 1) := by decide +kernel
theorem dX3_isName_1 : decode cX3_isName 1 = .ok (.bipush 97, 2) := by decide +kernel
theorem dX3_isName_3 : decode cX3_isName 3 = .ok (.if_icmp .lt 13, 3) := by decide +kernel
theorem dX3_isName_6 : decode cX3_isName 6 = .ok (.iload_n 0, 1) := by decide +kernel
theorem dX3_isName_7 : decode cX3_isName 7 = .ok (.bipush 104, 2) := by decide +kernel
theorem dX3_isName_9 : decode cX3_isName 9 = .ok (.if_icmp .gt 7, 3) := by decide +kernel
theorem dX3_isName_12 : decode cX3_isName 12 = .ok (.iconst 1, 1) := by decide +kernel
theorem dX3_isName_13 : decode cX3_isName 13 = .ok (.goto 4, 3) := by decide +kernel
theorem dX3_isName_16 : decode cX3_isName 16 = .ok (.iconst 0, 1) := by decide +kernel
theorem dX3_isName_17 : decode cX3_isName 17 = .ok (.ireturn, 1) := by decide +kernel
set_option maxRecDepth 20000 in
theorem ggX3_readTarget_X3_isName : GoodIn wsX3_readTarget wsX3_isName := goodIn_r _ [5] (by decide +kernel) (by decide +kernel)
set_option maxRecDepth 20000 in
theorem gX3_readTarget_X3_isName : GoodIn wsX3_readTarget (va_wsS RX3 118 yX3_isName wsX3_isName) := goodIn_app (goodIn_of _ (by decide +kernel)) ggX3_readTarget_X3_isName
set_option maxRecDepth 20000 in
theorem ggX3_readTarget_X3_pass : GoodIn wsX3_readTarget wsX3_pass := goodIn_r _ [9, 10, 11, 22, 23, 24, 25, 26, 27, 28, 29, 30, 31, 32, 33, 34, 35, 36] (by decide +kernel) (by decide +kernel)
set_option maxRecDepth 20000 in
theorem gX3_readTarget_X3_pass : GoodIn wsX3_readTarget (wsV RX3 125 RX3 yX3_pass wsX3_pass) := goodIn_app (goodIn_of _ (by decide +kernel)) ggX3_readTarget_X3_pass
set_option maxRecDepth 20000 in
theorem ggX3_readTarget_X3_refuseByte : GoodIn wsX3_readTarget wsX3_refuseByte := goodIn_r _ [15, 10, 16, 17, 18, 4, 19, 20, 21, 22, 23, 24, 25, 26, 27, 28, 29, 30, 31, 32, 33, 34, 35, 36] (by decide +kernel) (by decide +kernel)
set_option maxRecDepth 20000 in
theorem gX3_readTarget_X3_refuseByte : GoodIn wsX3_readTarget (wsV RX3 81 RX3 yX3_refuseByte wsX3_refuseByte) := goodIn_app (goodIn_of _ (by decide +kernel)) ggX3_readTarget_X3_refuseByte
theorem dX3_readTarget_0 : decode cX3_readTarget 0 = .ok (.iload_n 1, 1) := by decide +kernel
theorem dX3_readTarget_1 : decode cX3_readTarget 1 = .ok (.invokestatic 118, 3) := by decide +kernel
theorem dX3_readTarget_4 : decode cX3_readTarget 4 = .ok (.ifCond .eq 19, 3) := by decide +kernel
theorem dX3_readTarget_7 : decode cX3_readTarget 7 = .ok (.aload_n 0, 1) := by decide +kernel
theorem dX3_readTarget_8 : decode cX3_readTarget 8 = .ok (.iload_n 1, 1) := by decide +kernel
theorem dX3_readTarget_9 : decode cX3_readTarget 9 = .ok (.bipush 97, 2) := by decide +kernel
theorem dX3_readTarget_11 : decode cX3_readTarget 11 = .ok (.isub, 1) := by decide +kernel
theorem dX3_readTarget_12 : decode cX3_readTarget 12 = .ok (.putfield 122, 3) := by decide +kernel
theorem dX3_readTarget_15 : decode cX3_readTarget 15 = .ok (.aload_n 0, 1) := by decide +kernel
theorem dX3_readTarget_16 : decode cX3_readTarget 16 = .ok (.iconst 1, 1) := by decide +kernel
theorem dX3_readTarget_17 : decode cX3_readTarget 17 = .ok (.invokevirtual 125, 3) := by decide +kernel
theorem dX3_readTarget_20 : decode cX3_readTarget 20 = .ok (.goto 7, 3) := by decide +kernel
theorem dX3_readTarget_23 : decode cX3_readTarget 23 = .ok (.aload_n 0, 1) := by decide +kernel
theorem dX3_readTarget_24 : decode cX3_readTarget 24 = .ok (.invokevirtual 81, 3) := by decide +kernel
theorem dX3_readTarget_27 : decode cX3_readTarget 27 = .ok (.return_, 1) := by decide +kernel
set_option maxRecDepth 20000 in
theorem ggX3_readEquals_X3_beginSum : GoodIn wsX3_readEquals wsX3_beginSum := goodIn_r _ [5, 6, 7, 8, 9, 10, 11, 12, 13, 14, 15, 16, 33, 34, 35, 36, 37, 38, 39, 40, 41, 42, 43, 44, 45, 46, 47, 48, 49] (by decide +kernel) (by decide +kernel)
set_option maxRecDepth 20000 in
theorem gX3_readEquals_X3_beginSum : GoodIn wsX3_readEquals (wsV RX3 128 RX3 yX3_beginSum wsX3_beginSum) := goodIn_app (goodIn_of _ (by decide +kernel)) ggX3_readEquals_X3_beginSum
set_option maxRecDepth 20000 in
theorem ggX3_readEquals_X3_pass : GoodIn wsX3_readEquals wsX3_pass := goodIn_r _ [20, 21, 22, 33, 34, 35, 36, 37, 38, 39, 40, 41, 42, 43, 44, 45, 46, 47] (by decide +kernel) (by decide +kernel)
set_option maxRecDepth 20000 in
theorem gX3_readEquals_X3_pass : GoodIn wsX3_readEquals (wsV RX3 125 RX3 yX3_pass wsX3_pass) := goodIn_app (goodIn_of _ (by decide +kernel)) ggX3_readEquals_X3_pass
set_option maxRecDepth 20000 in
theorem ggX3_readEquals_X3_refuseByte : GoodIn wsX3_readEquals wsX3_refuseByte := goodIn_r _ [26, 21, 27, 28, 29, 4, 30, 31, 32, 33, 34, 35, 36, 37, 38, 39, 40, 41, 42, 43, 44, 45, 46, 47] (by decide +kernel) (by decide +kernel)
set_option maxRecDepth 20000 in
theorem gX3_readEquals_X3_refuseByte : GoodIn wsX3_readEquals (wsV RX3 81 RX3 yX3_refuseByte wsX3_refuseByte) := goodIn_app (goodIn_of _ (by decide +kernel)) ggX3_readEquals_X3_refuseByte
theorem dX3_readEquals_0 : decode cX3_readEquals 0 = .ok (.iload_n 1, 1) := by decide +kernel
theorem dX3_readEquals_1 : decode cX3_readEquals 1 = .ok (.bipush 61, 2) := by decide +kernel
theorem dX3_readEquals_3 : decode cX3_readEquals 3 = .ok (.if_icmp .ne 15, 3) := by decide +kernel
theorem dX3_readEquals_6 : decode cX3_readEquals 6 = .ok (.aload_n 0, 1) := by decide +kernel
theorem dX3_readEquals_7 : decode cX3_readEquals 7 = .ok (.invokevirtual 128, 3) := by decide +kernel
theorem dX3_readEquals_10 : decode cX3_readEquals 10 = .ok (.aload_n 0, 1) := by decide +kernel
theorem dX3_readEquals_11 : decode cX3_readEquals 11 = .ok (.iconst 2, 1) := by decide +kernel
theorem dX3_readEquals_12 : decode cX3_readEquals 12 = .ok (.invokevirtual 125, 3) := by decide +kernel
theorem dX3_readEquals_15 : decode cX3_readEquals 15 = .ok (.goto 7, 3) := by decide +kernel
theorem dX3_readEquals_18 : decode cX3_readEquals 18 = .ok (.aload_n 0, 1) := by decide +kernel
theorem dX3_readEquals_19 : decode cX3_readEquals 19 = .ok (.invokevirtual 81, 3) := by decide +kernel
theorem dX3_readEquals_22 : decode cX3_readEquals 22 = .ok (.return_, 1) := by decide +kernel
set_option maxRecDepth 20000 in
theorem ggX3_readFactor_X3_isName : GoodIn wsX3_readFactor wsX3_isName := goodIn_r _ [6] (by decide +kernel) (by decide +kernel)
set_option maxRecDepth 20000 in
theorem gX3_readFactor_X3_isName : GoodIn wsX3_readFactor (va_wsS RX3 118 yX3_isName wsX3_isName) := goodIn_app (goodIn_of _ (by decide +kernel)) ggX3_readFactor_X3_isName
set_option maxRecDepth 20000 in
theorem ggX3_readFactor_X3_useFactor : GoodIn wsX3_readFactor wsX3_useFactor := goodIn_ca (goodIn_r _ [10, 11, 12, 13, 14, 15, 16, 17, 18, 19, 20, 21, 22, 23, 24, 25, 26, 27, 58, 59, 60, 61, 62, 63, 64, 65, 66, 67, 68, 69, 70, 71, 72, 73, 74] (by decide +kernel) (by decide +kernel)) (goodIn_sub (fun _ h => List.mem_cons_of_mem _ (List.mem_append_right _ h)) (by decide +kernel))
set_option maxRecDepth 20000 in
theorem gX3_readFactor_X3_useFactor : GoodIn wsX3_readFactor (wsV RX3 131 RX3 yX3_useFactor wsX3_useFactor) := goodIn_app (goodIn_of _ (by decide +kernel)) ggX3_readFactor_X3_useFactor
set_option maxRecDepth 20000 in
theorem ggX3_readFactor_X3_pass : GoodIn wsX3_readFactor wsX3_pass := goodIn_r _ [31, 32, 33, 58, 59, 60, 61, 62, 63, 64, 65, 66, 67, 68, 69, 70, 71, 72] (by decide +kernel) (by decide +kernel)
set_option maxRecDepth 20000 in
theorem gX3_readFactor_X3_pass : GoodIn wsX3_readFactor (wsV RX3 125 RX3 yX3_pass wsX3_pass) := goodIn_app (goodIn_of _ (by decide +kernel)) ggX3_readFactor_X3_pass
set_option maxRecDepth 20000 in
theorem ggX3_readFactor_X2_empty : GoodIn wsX3_readFactor wsX2_empty := goodIn_r _ [37, 21, 22, 73, 74] (by decide +kernel) (by decide +kernel)
set_option maxRecDepth 20000 in
theorem gX3_readFactor_X2_empty : GoodIn wsX3_readFactor (wsV RX3 134 RX2 yX2_empty wsX2_empty) := goodIn_app (goodIn_of _ (by decide +kernel)) ggX3_readFactor_X2_empty
set_option maxRecDepth 20000 in
theorem ggX3_readFactor_X3_openBracket : GoodIn wsX3_readFactor wsX3_openBracket := goodIn_r _ [41, 12, 32, 42, 43, 44, 5, 45, 46, 47, 48, 49, 50, 51, 52, 53, 11, 34, 35, 36, 17, 37, 21, 22, 28, 29, 30, 31, 33, 58, 59, 60, 61, 62, 63, 64, 65, 66, 67, 68, 69, 70, 71, 72, 73, 74] (by decide +kernel) (by decide +kernel)
set_option maxRecDepth 20000 in
theorem gX3_readFactor_X3_openBracket : GoodIn wsX3_readFactor (wsV RX3 137 RX3 yX3_openBracket wsX3_openBracket) := goodIn_app (goodIn_of _ (by decide +kernel)) ggX3_readFactor_X3_openBracket
set_option maxRecDepth 20000 in
theorem ggX3_readFactor_X3_refuseByte : GoodIn wsX3_readFactor wsX3_refuseByte := goodIn_r _ [57, 32, 42, 43, 44, 5, 45, 46, 47, 58, 59, 60, 61, 62, 63, 64, 65, 66, 67, 68, 69, 70, 71, 72] (by decide +kernel) (by decide +kernel)
set_option maxRecDepth 20000 in
theorem gX3_readFactor_X3_refuseByte : GoodIn wsX3_readFactor (wsV RX3 81 RX3 yX3_refuseByte wsX3_refuseByte) := goodIn_app (goodIn_of _ (by decide +kernel)) ggX3_readFactor_X3_refuseByte
theorem dX3_readFactor_0 : decode cX3_readFactor 0 = .ok (.iload_n 1, 1) := by decide +kernel
theorem dX3_readFactor_1 : decode cX3_readFactor 1 = .ok (.invokestatic 118, 3) := by decide +kernel
theorem dX3_readFactor_4 : decode cX3_readFactor 4 = .ok (.ifCond .eq 24, 3) := by decide +kernel
theorem dX3_readFactor_7 : decode cX3_readFactor 7 = .ok (.aload_n 0, 1) := by decide +kernel
theorem dX3_readFactor_8 : decode cX3_readFactor 8 = .ok (.aload_n 0, 1) := by decide +kernel
theorem dX3_readFactor_9 : decode cX3_readFactor 9 = .ok (.getfield 17, 3) := by decide +kernel
theorem dX3_readFactor_12 : decode cX3_readFactor 12 = .ok (.iload_n 1, 1) := by decide +kernel
theorem dX3_readFactor_13 : decode cX3_readFactor 13 = .ok (.bipush 97, 2) := by decide +kernel
theorem dX3_readFactor_15 : decode cX3_readFactor 15 = .ok (.isub, 1) := by decide +kernel
theorem dX3_readFactor_16 : decode cX3_readFactor 16 = .ok (.aaload, 1) := by decide +kernel
theorem dX3_readFactor_17 : decode cX3_readFactor 17 = .ok (.invokevirtual 131, 3) := by decide +kernel
theorem dX3_readFactor_20 : decode cX3_readFactor 20 = .ok (.aload_n 0, 1) := by decide +kernel
theorem dX3_readFactor_21 : decode cX3_readFactor 21 = .ok (.iconst 3, 1) := by decide +kernel
theorem dX3_readFactor_22 : decode cX3_readFactor 22 = .ok (.invokevirtual 125, 3) := by decide +kernel
theorem dX3_readFactor_25 : decode cX3_readFactor 25 = .ok (.goto 41, 3) := by decide +kernel
theorem dX3_readFactor_28 : decode cX3_readFactor 28 = .ok (.iload_n 1, 1) := by decide +kernel
theorem dX3_readFactor_29 : decode cX3_readFactor 29 = .ok (.bipush 123, 2) := by decide +kernel
theorem dX3_readFactor_31 : decode cX3_readFactor 31 = .ok (.if_icmp .ne 18, 3) := by decide +kernel
theorem dX3_readFactor_34 : decode cX3_readFactor 34 = .ok (.aload_n 0, 1) := by decide +kernel
theorem dX3_readFactor_35 : decode cX3_readFactor 35 = .ok (.getfield 22, 3) := by decide +kernel
theorem dX3_readFactor_38 : decode cX3_readFactor 38 = .ok (.invokevirtual 134, 3) := by decide +kernel
theorem dX3_readFactor_41 : decode cX3_readFactor 41 = .ok (.aload_n 0, 1) := by decide +kernel
theorem dX3_readFactor_42 : decode cX3_readFactor 42 = .ok (.iconst 4, 1) := by decide +kernel
theorem dX3_readFactor_43 : decode cX3_readFactor 43 = .ok (.invokevirtual 125, 3) := by decide +kernel
theorem dX3_readFactor_46 : decode cX3_readFactor 46 = .ok (.goto 20, 3) := by decide +kernel
theorem dX3_readFactor_49 : decode cX3_readFactor 49 = .ok (.iload_n 1, 1) := by decide +kernel
theorem dX3_readFactor_50 : decode cX3_readFactor 50 = .ok (.bipush 40, 2) := by decide +kernel
theorem dX3_readFactor_52 : decode cX3_readFactor 52 = .ok (.if_icmp .ne 10, 3) := by decide +kernel
theorem dX3_readFactor_55 : decode cX3_readFactor 55 = .ok (.aload_n 0, 1) := by decide +kernel
theorem dX3_readFactor_56 : decode cX3_readFactor 56 = .ok (.invokevirtual 137, 3) := by decide +kernel
theorem dX3_readFactor_59 : decode cX3_readFactor 59 = .ok (.goto 7, 3) := by decide +kernel
theorem dX3_readFactor_62 : decode cX3_readFactor 62 = .ok (.aload_n 0, 1) := by decide +kernel
theorem dX3_readFactor_63 : decode cX3_readFactor 63 = .ok (.invokevirtual 81, 3) := by decide +kernel
theorem dX3_readFactor_66 : decode cX3_readFactor 66 = .ok (.return_, 1) := by decide +kernel
set_option maxRecDepth 20000 in
theorem ggX3_openBracket_X3_fail : GoodIn wsX3_openBracket wsX3_fail := goodIn_r _ [7, 8, 9, 29, 30, 31, 32, 33, 34, 35, 36, 37, 38, 39, 40, 41, 42, 43] (by decide +kernel) (by decide +kernel)
set_option maxRecDepth 20000 in
theorem gX3_openBracket_X3_fail : GoodIn wsX3_openBracket (wsV RX3 87 RX3 yX3_fail wsX3_fail) := goodIn_app (goodIn_of _ (by decide +kernel)) ggX3_openBracket_X3_fail
set_option maxRecDepth 20000 in
theorem ggX3_openBracket_X3_beginSum : GoodIn wsX3_openBracket wsX3_beginSum := goodIn_r _ [13, 14, 1, 15, 16, 17, 18, 19, 20, 21, 22, 23, 29, 30, 31, 32, 33, 34, 35, 36, 37, 38, 39, 40, 41, 42, 43, 44, 45] (by decide +kernel) (by decide +kernel)
set_option maxRecDepth 20000 in
theorem gX3_openBracket_X3_beginSum : GoodIn wsX3_openBracket (wsV RX3 128 RX3 yX3_beginSum wsX3_beginSum) := goodIn_app (goodIn_of _ (by decide +kernel)) ggX3_openBracket_X3_beginSum
set_option maxRecDepth 20000 in
theorem ggX3_openBracket_X3_pass : GoodIn wsX3_openBracket wsX3_pass := goodIn_r _ [27, 2, 28, 29, 30, 31, 32, 33, 34, 35, 36, 37, 38, 39, 40, 41, 42, 43] (by decide +kernel) (by decide +kernel)
set_option maxRecDepth 20000 in
theorem gX3_openBracket_X3_pass : GoodIn wsX3_openBracket (wsV RX3 125 RX3 yX3_pass wsX3_pass) := goodIn_app (goodIn_of _ (by decide +kernel)) ggX3_openBracket_X3_pass
theorem dX3_openBracket_0 : decode cX3_openBracket 0 = .ok (.aload_n 0, 1) := by decide +kernel
theorem dX3_openBracket_1 : decode cX3_openBracket 1 = .ok (.getfield 84, 3) := by decide +kernel
theorem dX3_openBracket_4 : decode cX3_openBracket 4 = .ok (.bipush 8, 2) := by decide +kernel
theorem dX3_openBracket_6 : decode cX3_openBracket 6 = .ok (.if_icmp .lt 15, 3) := by decide +kernel
theorem dX3_openBracket_9 : decode cX3_openBracket 9 = .ok (.aload_n 0, 1) := by decide +kernel
theorem dX3_openBracket_10 : decode cX3_openBracket 10 = .ok (.iconst 2, 1) := by decide +kernel
theorem dX3_openBracket_11 : decode cX3_openBracket 11 = .ok (.aload_n 0, 1) := by decide +kernel
theorem dX3_openBracket_12 : decode cX3_openBracket 12 = .ok (.getfield 61, 3) := by decide +kernel
theorem dX3_openBracket_15 : decode cX3_openBracket 15 = .ok (.invokevirtual 87, 3) := by decide +kernel
theorem dX3_openBracket_18 : decode cX3_openBracket 18 = .ok (.goto 22, 3) := by decide +kernel
theorem dX3_openBracket_21 : decode cX3_openBracket 21 = .ok (.aload_n 0, 1) := by decide +kernel
theorem dX3_openBracket_22 : decode cX3_openBracket 22 = .ok (.dup, 1) := by decide +kernel
theorem dX3_openBracket_23 : decode cX3_openBracket 23 = .ok (.getfield 84, 3) := by decide +kernel
theorem dX3_openBracket_26 : decode cX3_openBracket 26 = .ok (.iconst 1, 1) := by decide +kernel
theorem dX3_openBracket_27 : decode cX3_openBracket 27 = .ok (.iadd, 1) := by decide +kernel
theorem dX3_openBracket_28 : decode cX3_openBracket 28 = .ok (.putfield 84, 3) := by decide +kernel
theorem dX3_openBracket_31 : decode cX3_openBracket 31 = .ok (.aload_n 0, 1) := by decide +kernel
theorem dX3_openBracket_32 : decode cX3_openBracket 32 = .ok (.invokevirtual 128, 3) := by decide +kernel
theorem dX3_openBracket_35 : decode cX3_openBracket 35 = .ok (.aload_n 0, 1) := by decide +kernel
theorem dX3_openBracket_36 : decode cX3_openBracket 36 = .ok (.iconst 2, 1) := by decide +kernel
theorem dX3_openBracket_37 : decode cX3_openBracket 37 = .ok (.invokevirtual 125, 3) := by decide +kernel
theorem dX3_openBracket_40 : decode cX3_openBracket 40 = .ok (.return_, 1) := by decide +kernel
set_option maxRecDepth 20000 in
theorem ggX3_readBehindFactor_X3_pass : GoodIn wsX3_readBehindFactor wsX3_pass := goodIn_r _ [6, 7, 8, 56, 57, 58, 59, 60, 61, 62, 63, 64, 65, 66, 67, 68, 69, 70] (by decide +kernel) (by decide +kernel)
set_option maxRecDepth 20000 in
theorem gX3_readBehindFactor_X3_pass : GoodIn wsX3_readBehindFactor (wsV RX3 125 RX3 yX3_pass wsX3_pass) := goodIn_app (goodIn_of _ (by decide +kernel)) ggX3_readBehindFactor_X3_pass
set_option maxRecDepth 20000 in
theorem ggX3_readBehindFactor_X3_endPart : GoodIn wsX3_readBehindFactor wsX3_endPart := goodIn_ca (goodIn_r _ [12, 13, 1, 14, 15, 16, 17, 18, 19, 20, 21, 22, 23, 24, 25, 26, 56, 57, 58, 59, 60, 61, 62, 63, 64, 65, 66, 67, 68, 69, 70, 71, 72] (by decide +kernel) (by decide +kernel)) (goodIn_sub (fun _ h => List.mem_cons_of_mem _ (List.mem_append_right _ h)) (by decide +kernel))
set_option maxRecDepth 20000 in
theorem gX3_readBehindFactor_X3_endPart : GoodIn wsX3_readBehindFactor (wsV RX3 140 RX3 yX3_endPart wsX3_endPart) := goodIn_app (goodIn_of _ (by decide +kernel)) ggX3_readBehindFactor_X3_endPart
set_option maxRecDepth 20000 in
theorem ggX3_readBehindFactor_X3_closeBracket : GoodIn wsX3_readBehindFactor wsX3_closeBracket := goodIn_ca (goodIn_r _ [30, 13, 1, 9, 10, 11, 5, 12, 14, 15, 16, 17, 18, 19, 20, 21, 22, 23, 24, 25, 26, 31, 32, 33, 34, 35, 36, 37, 38, 2, 3, 4, 6, 7, 8, 56, 57, 58, 59, 60, 61, 62, 63, 64, 65, 66, 67, 68, 69, 70, 71, 72] (by decide +kernel) (by decide +kernel)) (goodIn_sub (fun _ h => List.mem_cons_of_mem _ (List.mem_append_right _ h)) (by decide +kernel))
set_option maxRecDepth 20000 in
theorem gX3_readBehindFactor_X3_closeBracket : GoodIn wsX3_readBehindFactor (wsV RX3 143 RX3 yX3_closeBracket wsX3_closeBracket) := goodIn_app (goodIn_of _ (by decide +kernel)) ggX3_readBehindFactor_X3_closeBracket
set_option maxRecDepth 20000 in
theorem ggX3_readBehindFactor_X3_endStatement : GoodIn wsX3_readBehindFactor wsX3_endStatement := goodIn_ca (goodIn_r _ [42, 43, 44, 13, 45, 9, 10, 11, 5, 12, 1, 14, 15, 16, 17, 18, 19, 20, 21, 22, 23, 24, 25, 26, 35, 36, 37, 38, 2, 3, 4, 6, 7, 8, 56, 57, 58, 59, 60, 61, 62, 63, 64, 65, 66, 67, 68, 69, 70, 71, 72] (by decide +kernel) (by decide +kernel)) (goodIn_sub (fun _ h => List.mem_cons_of_mem _ (List.mem_append_right _ h)) (by decide +kernel))
set_option maxRecDepth 20000 in
theorem gX3_readBehindFactor_X3_endStatement : GoodIn wsX3_readBehindFactor (wsV RX3 146 RX3 yX3_endStatement wsX3_endStatement) := goodIn_app (goodIn_of _ (by decide +kernel)) ggX3_readBehindFactor_X3_endStatement
set_option maxRecDepth 20000 in
theorem ggX3_readBehindFactor_X3_refuseByte : GoodIn wsX3_readBehindFactor wsX3_refuseByte := goodIn_r _ [49, 7, 50, 51, 52, 5, 53, 54, 55, 56, 57, 58, 59, 60, 61, 62, 63, 64, 65, 66, 67, 68, 69, 70] (by decide +kernel) (by decide +kernel)
set_option maxRecDepth 20000 in
theorem gX3_readBehindFactor_X3_refuseByte : GoodIn wsX3_readBehindFactor (wsV RX3 81 RX3 yX3_refuseByte wsX3_refuseByte) := goodIn_app (goodIn_of _ (by decide +kernel)) ggX3_readBehindFactor_X3_refuseByte
theorem dX3_readBehindFactor_0 : decode cX3_readBehindFactor 0 = .ok (.iload_n 1, 1) := by decide +kernel
theorem dX3_readBehindFactor_1 : decode cX3_readBehindFactor 1 = .ok (.bipush 38, 2) := by decide +kernel
theorem dX3_readBehindFactor_3 : decode cX3_readBehindFactor 3 = .ok (.if_icmp .ne 11, 3) := by decide +kernel
theorem dX3_readBehindFactor_6 : decode cX3_readBehindFactor 6 = .ok (.aload_n 0, 1) := by decide +kernel
theorem dX3_readBehindFactor_7 : decode cX3_readBehindFactor 7 = .ok (.iconst 2, 1) := by decide +kernel
theorem dX3_readBehindFactor_8 : decode cX3_readBehindFactor 8 = .ok (.invokevirtual 125, 3) := by decide +kernel
theorem dX3_readBehindFactor_11 : decode cX3_readBehindFactor 11 = .ok (.goto 104, 3) := by decide +kernel
theorem dX3_readBehindFactor_14 : decode cX3_readBehindFactor 14 = .ok (.iload_n 1, 1) := by decide +kernel
theorem dX3_readBehindFactor_15 : decode cX3_readBehindFactor 15 = .ok (.bipush 124, 2) := by decide +kernel
theorem dX3_readBehindFactor_17 : decode cX3_readBehindFactor 17 = .ok (.if_icmp .ne 16, 3) := by decide +kernel
theorem dX3_readBehindFactor_20 : decode cX3_readBehindFactor 20 = .ok (.aload_n 0, 1) := by decide +kernel
theorem dX3_readBehindFactor_21 : decode cX3_readBehindFactor 21 = .ok (.iconst 0, 1) := by decide +kernel
theorem dX3_readBehindFactor_22 : decode cX3_readBehindFactor 22 = .ok (.invokevirtual 140, 3) := by decide +kernel
theorem dX3_readBehindFactor_25 : decode cX3_readBehindFactor 25 = .ok (.aload_n 0, 1) := by decide +kernel
theorem dX3_readBehindFactor_26 : decode cX3_readBehindFactor 26 = .ok (.iconst 2, 1) := by decide +kernel
theorem dX3_readBehindFactor_27 : decode cX3_readBehindFactor 27 = .ok (.invokevirtual 125, 3) := by decide +kernel
theorem dX3_readBehindFactor_30 : decode cX3_readBehindFactor 30 = .ok (.goto 85, 3) := by decide +kernel
theorem dX3_readBehindFactor_33 : decode cX3_readBehindFactor 33 = .ok (.iload_n 1, 1) := by decide +kernel
theorem dX3_readBehindFactor_34 : decode cX3_readBehindFactor 34 = .ok (.bipush 45, 2) := by decide +kernel
theorem dX3_readBehindFactor_36 : decode cX3_readBehindFactor 36 = .ok (.if_icmp .ne 16, 3) := by decide +kernel
theorem dX3_readBehindFactor_39 : decode cX3_readBehindFactor 39 = .ok (.aload_n 0, 1) := by decide +kernel
theorem dX3_readBehindFactor_40 : decode cX3_readBehindFactor 40 = .ok (.iconst 2, 1) := by decide +kernel
theorem dX3_readBehindFactor_41 : decode cX3_readBehindFactor 41 = .ok (.invokevirtual 140, 3) := by decide +kernel
theorem dX3_readBehindFactor_44 : decode cX3_readBehindFactor 44 = .ok (.aload_n 0, 1) := by decide +kernel
theorem dX3_readBehindFactor_45 : decode cX3_readBehindFactor 45 = .ok (.iconst 2, 1) := by decide +kernel
theorem dX3_readBehindFactor_46 : decode cX3_readBehindFactor 46 = .ok (.invokevirtual 125, 3) := by decide +kernel
theorem dX3_readBehindFactor_49 : decode cX3_readBehindFactor 49 = .ok (.goto 66, 3) := by decide +kernel
theorem dX3_readBehindFactor_52 : decode cX3_readBehindFactor 52 = .ok (.iload_n 1, 1) := by decide +kernel
theorem dX3_readBehindFactor_53 : decode cX3_readBehindFactor 53 = .ok (.bipush 94, 2) := by decide +kernel
theorem dX3_readBehindFactor_55 : decode cX3_readBehindFactor 55 = .ok (.if_icmp .ne 16, 3) := by decide +kernel
theorem dX3_readBehindFactor_58 : decode cX3_readBehindFactor 58 = .ok (.aload_n 0, 1) := by decide +kernel
theorem dX3_readBehindFactor_59 : decode cX3_readBehindFactor 59 = .ok (.iconst 3, 1) := by decide +kernel
theorem dX3_readBehindFactor_60 : decode cX3_readBehindFactor 60 = .ok (.invokevirtual 140, 3) := by decide +kernel
theorem dX3_readBehindFactor_63 : decode cX3_readBehindFactor 63 = .ok (.aload_n 0, 1) := by decide +kernel
theorem dX3_readBehindFactor_64 : decode cX3_readBehindFactor 64 = .ok (.iconst 2, 1) := by decide +kernel
theorem dX3_readBehindFactor_65 : decode cX3_readBehindFactor 65 = .ok (.invokevirtual 125, 3) := by decide +kernel
theorem dX3_readBehindFactor_68 : decode cX3_readBehindFactor 68 = .ok (.goto 47, 3) := by decide +kernel
theorem dX3_readBehindFactor_71 : decode cX3_readBehindFactor 71 = .ok (.iload_n 1, 1) := by decide +kernel
theorem dX3_readBehindFactor_72 : decode cX3_readBehindFactor 72 = .ok (.bipush 41, 2) := by decide +kernel
theorem dX3_readBehindFactor_74 : decode cX3_readBehindFactor 74 = .ok (.if_icmp .ne 17, 3) := by decide +kernel
theorem dX3_readBehindFactor_77 : decode cX3_readBehindFactor 77 = .ok (.aload_n 0, 1) := by decide +kernel
theorem dX3_readBehindFactor_78 : decode cX3_readBehindFactor 78 = .ok (.getfield 84, 3) := by decide +kernel
theorem dX3_readBehindFactor_81 : decode cX3_readBehindFactor 81 = .ok (.ifCond .le 10, 3) := by decide +kernel
theorem dX3_readBehindFactor_84 : decode cX3_readBehindFactor 84 = .ok (.aload_n 0, 1) := by decide +kernel
theorem dX3_readBehindFactor_85 : decode cX3_readBehindFactor 85 = .ok (.invokevirtual 143, 3) := by decide +kernel
theorem dX3_readBehindFactor_88 : decode cX3_readBehindFactor 88 = .ok (.goto 27, 3) := by decide +kernel
theorem dX3_readBehindFactor_91 : decode cX3_readBehindFactor 91 = .ok (.iload_n 1, 1) := by decide +kernel
theorem dX3_readBehindFactor_92 : decode cX3_readBehindFactor 92 = .ok (.bipush 59, 2) := by decide +kernel
theorem dX3_readBehindFactor_94 : decode cX3_readBehindFactor 94 = .ok (.if_icmp .ne 17, 3) := by decide +kernel
theorem dX3_readBehindFactor_97 : decode cX3_readBehindFactor 97 = .ok (.aload_n 0, 1) := by decide +kernel
theorem dX3_readBehindFactor_98 : decode cX3_readBehindFactor 98 = .ok (.getfield 84, 3) := by decide +kernel
theorem dX3_readBehindFactor_101 : decode cX3_readBehindFactor 101 = .ok (.ifCond .ne 10, 3) := by decide +kernel
theorem dX3_readBehindFactor_104 : decode cX3_readBehindFactor 104 = .ok (.aload_n 0, 1) := by decide +kernel
theorem dX3_readBehindFactor_105 : decode cX3_readBehindFactor 105 = .ok (.invokevirtual 146, 3) := by decide +kernel
theorem dX3_readBehindFactor_108 : decode cX3_readBehindFactor 108 = .ok (.goto 7, 3) := by decide +kernel
theorem dX3_readBehindFactor_111 : decode cX3_readBehindFactor 111 = .ok (.aload_n 0, 1) := by decide +kernel
theorem dX3_readBehindFactor_112 : decode cX3_readBehindFactor 112 = .ok (.invokevirtual 81, 3) := by decide +kernel
theorem dX3_readBehindFactor_115 : decode cX3_readBehindFactor 115 = .ok (.return_, 1) := by decide +kernel
set_option maxRecDepth 20000 in
theorem ggX3_closeBracket_X3_endPart : GoodIn wsX3_closeBracket wsX3_endPart := goodIn_ca (goodIn_r _ [7, 1, 2, 8, 9, 10, 11, 12, 13, 14, 15, 16, 17, 18, 19, 20, 35, 36, 37, 38, 39, 40, 41, 42, 43, 44, 45, 46, 47, 48, 49, 50, 51] (by decide +kernel) (by decide +kernel)) (goodIn_sub (fun _ h => List.mem_cons_of_mem _ (List.mem_append_right _ h)) (by decide +kernel))
set_option maxRecDepth 20000 in
theorem gX3_closeBracket_X3_endPart : GoodIn wsX3_closeBracket (wsV RX3 140 RX3 yX3_endPart wsX3_endPart) := goodIn_app (goodIn_of _ (by decide +kernel)) ggX3_closeBracket_X3_endPart
set_option maxRecDepth 20000 in
theorem ggX3_closeBracket_X3_useFactor : GoodIn wsX3_closeBracket wsX3_useFactor := goodIn_ca (goodIn_r _ [24, 10, 2, 9, 11, 12, 13, 14, 15, 16, 17, 18, 19, 20, 25, 26, 27, 28, 35, 36, 37, 38, 39, 40, 41, 42, 43, 44, 45, 46, 47, 48, 49, 50, 51] (by decide +kernel) (by decide +kernel)) (goodIn_sub (fun _ h => List.mem_cons_of_mem _ (List.mem_append_right _ h)) (by decide +kernel))
set_option maxRecDepth 20000 in
theorem gX3_closeBracket_X3_useFactor : GoodIn wsX3_closeBracket (wsV RX3 131 RX3 yX3_useFactor wsX3_useFactor) := goodIn_app (goodIn_of _ (by decide +kernel)) ggX3_closeBracket_X3_useFactor
set_option maxRecDepth 20000 in
theorem ggX3_closeBracket_X3_pass : GoodIn wsX3_closeBracket wsX3_pass := goodIn_r _ [32, 33, 34, 35, 36, 37, 38, 39, 40, 41, 42, 43, 44, 45, 46, 47, 48, 49] (by decide +kernel) (by decide +kernel)
set_option maxRecDepth 20000 in
theorem gX3_closeBracket_X3_pass : GoodIn wsX3_closeBracket (wsV RX3 125 RX3 yX3_pass wsX3_pass) := goodIn_app (goodIn_of _ (by decide +kernel)) ggX3_closeBracket_X3_pass
theorem dX3_closeBracket_0 : decode cX3_closeBracket 0 = .ok (.aload_n 0, 1) := by decide +kernel
theorem dX3_closeBracket_1 : decode cX3_closeBracket 1 = .ok (.iconst 0, 1) := by decide +kernel
theorem dX3_closeBracket_2 : decode cX3_closeBracket 2 = .ok (.invokevirtual 140, 3) := by decide +kernel
theorem dX3_closeBracket_5 : decode cX3_closeBracket 5 = .ok (.aload_n 0, 1) := by decide +kernel
theorem dX3_closeBracket_6 : decode cX3_closeBracket 6 = .ok (.getfield 26, 3) := by decide +kernel
theorem dX3_closeBracket_9 : decode cX3_closeBracket 9 = .ok (.aload_n 0, 1) := by decide +kernel
theorem dX3_closeBracket_10 : decode cX3_closeBracket 10 = .ok (.getfield 84, 3) := by decide +kernel
theorem dX3_closeBracket_13 : decode cX3_closeBracket 13 = .ok (.aaload, 1) := by decide +kernel
theorem dX3_closeBracket_14 : decode cX3_closeBracket 14 = .ok (.astore_n 1, 1) := by decide +kernel
theorem dX3_closeBracket_15 : decode cX3_closeBracket 15 = .ok (.aload_n 0, 1) := by decide +kernel
theorem dX3_closeBracket_16 : decode cX3_closeBracket 16 = .ok (.dup, 1) := by decide +kernel
theorem dX3_closeBracket_17 : decode cX3_closeBracket 17 = .ok (.getfield 84, 3) := by decide +kernel
theorem dX3_closeBracket_20 : decode cX3_closeBracket 20 = .ok (.iconst 1, 1) := by decide +kernel
theorem dX3_closeBracket_21 : decode cX3_closeBracket 21 = .ok (.isub, 1) := by decide +kernel
theorem dX3_closeBracket_22 : decode cX3_closeBracket 22 = .ok (.putfield 84, 3) := by decide +kernel
theorem dX3_closeBracket_25 : decode cX3_closeBracket 25 = .ok (.aload_n 0, 1) := by decide +kernel
theorem dX3_closeBracket_26 : decode cX3_closeBracket 26 = .ok (.aload_n 1, 1) := by decide +kernel
theorem dX3_closeBracket_27 : decode cX3_closeBracket 27 = .ok (.invokevirtual 131, 3) := by decide +kernel
theorem dX3_closeBracket_30 : decode cX3_closeBracket 30 = .ok (.aload_n 0, 1) := by decide +kernel
theorem dX3_closeBracket_31 : decode cX3_closeBracket 31 = .ok (.iconst 3, 1) := by decide +kernel
theorem dX3_closeBracket_32 : decode cX3_closeBracket 32 = .ok (.invokevirtual 125, 3) := by decide +kernel
theorem dX3_closeBracket_35 : decode cX3_closeBracket 35 = .ok (.return_, 1) := by decide +kernel
set_option maxRecDepth 20000 in
theorem ggX3_endStatement_X3_endPart : GoodIn wsX3_endStatement wsX3_endPart := goodIn_ca (goodIn_r _ [9, 3, 10, 11, 12, 13, 14, 15, 16, 17, 18, 19, 20, 21, 22, 23, 34, 35, 36, 37, 38, 39, 40, 41, 42, 43, 44, 45, 46, 47, 48, 49, 50] (by decide +kernel) (by decide +kernel)) (goodIn_sub (fun _ h => List.mem_cons_of_mem _ (List.mem_append_right _ h)) (by decide +kernel))
set_option maxRecDepth 20000 in
theorem gX3_endStatement_X3_endPart : GoodIn wsX3_endStatement (wsV RX3 140 RX3 yX3_endPart wsX3_endPart) := goodIn_app (goodIn_of _ (by decide +kernel)) ggX3_endStatement_X3_endPart
set_option maxRecDepth 20000 in
theorem ggX3_endStatement_X2_become : GoodIn wsX3_endStatement wsX2_become := goodIn_r _ [27, 21, 22, 49, 50] (by decide +kernel) (by decide +kernel)
set_option maxRecDepth 20000 in
theorem gX3_endStatement_X2_become : GoodIn wsX3_endStatement (wsV RX3 50 RX2 yX2_become wsX2_become) := goodIn_app (goodIn_of _ (by decide +kernel)) ggX3_endStatement_X2_become
set_option maxRecDepth 20000 in
theorem ggX3_endStatement_X3_pass : GoodIn wsX3_endStatement wsX3_pass := goodIn_r _ [31, 32, 33, 34, 35, 36, 37, 38, 39, 40, 41, 42, 43, 44, 45, 46, 47, 48] (by decide +kernel) (by decide +kernel)
set_option maxRecDepth 20000 in
theorem gX3_endStatement_X3_pass : GoodIn wsX3_endStatement (wsV RX3 125 RX3 yX3_pass wsX3_pass) := goodIn_app (goodIn_of _ (by decide +kernel)) ggX3_endStatement_X3_pass
theorem dX3_endStatement_0 : decode cX3_endStatement 0 = .ok (.aload_n 0, 1) := by decide +kernel
theorem dX3_endStatement_1 : decode cX3_endStatement 1 = .ok (.iconst 0, 1) := by decide +kernel
theorem dX3_endStatement_2 : decode cX3_endStatement 2 = .ok (.invokevirtual 140, 3) := by decide +kernel
theorem dX3_endStatement_5 : decode cX3_endStatement 5 = .ok (.aload_n 0, 1) := by decide +kernel
theorem dX3_endStatement_6 : decode cX3_endStatement 6 = .ok (.getfield 17, 3) := by decide +kernel
theorem dX3_endStatement_9 : decode cX3_endStatement 9 = .ok (.aload_n 0, 1) := by decide +kernel
theorem dX3_endStatement_10 : decode cX3_endStatement 10 = .ok (.getfield 122, 3) := by decide +kernel
theorem dX3_endStatement_13 : decode cX3_endStatement 13 = .ok (.aaload, 1) := by decide +kernel
theorem dX3_endStatement_14 : decode cX3_endStatement 14 = .ok (.aload_n 0, 1) := by decide +kernel
theorem dX3_endStatement_15 : decode cX3_endStatement 15 = .ok (.getfield 26, 3) := by decide +kernel
theorem dX3_endStatement_18 : decode cX3_endStatement 18 = .ok (.iconst 0, 1) := by decide +kernel
theorem dX3_endStatement_19 : decode cX3_endStatement 19 = .ok (.aaload, 1) := by decide +kernel
theorem dX3_endStatement_20 : decode cX3_endStatement 20 = .ok (.invokevirtual 50, 3) := by decide +kernel
theorem dX3_endStatement_23 : decode cX3_endStatement 23 = .ok (.aload_n 0, 1) := by decide +kernel
theorem dX3_endStatement_24 : decode cX3_endStatement 24 = .ok (.dup, 1) := by decide +kernel
theorem dX3_endStatement_25 : decode cX3_endStatement 25 = .ok (.getfield 47, 3) := by decide +kernel
theorem dX3_endStatement_28 : decode cX3_endStatement 28 = .ok (.iconst 1, 1) := by decide +kernel
theorem dX3_endStatement_29 : decode cX3_endStatement 29 = .ok (.iadd, 1) := by decide +kernel
theorem dX3_endStatement_30 : decode cX3_endStatement 30 = .ok (.putfield 47, 3) := by decide +kernel
theorem dX3_endStatement_33 : decode cX3_endStatement 33 = .ok (.aload_n 0, 1) := by decide +kernel
theorem dX3_endStatement_34 : decode cX3_endStatement 34 = .ok (.iconst 0, 1) := by decide +kernel
theorem dX3_endStatement_35 : decode cX3_endStatement 35 = .ok (.invokevirtual 125, 3) := by decide +kernel
theorem dX3_endStatement_38 : decode cX3_endStatement 38 = .ok (.return_, 1) := by decide +kernel
set_option maxRecDepth 20000 in
theorem ggX3_beginSum_X2_empty : GoodIn wsX3_beginSum wsX2_empty := goodIn_r _ [9, 10, 11, 27, 28] (by decide +kernel) (by decide +kernel)
set_option maxRecDepth 20000 in
theorem gX3_beginSum_X2_empty : GoodIn wsX3_beginSum (wsV RX3 134 RX2 yX2_empty wsX2_empty) := goodIn_app (goodIn_of _ (by decide +kernel)) ggX3_beginSum_X2_empty
theorem dX3_beginSum_0 : decode cX3_beginSum 0 = .ok (.aload_n 0, 1) := by decide +kernel
theorem dX3_beginSum_1 : decode cX3_beginSum 1 = .ok (.getfield 26, 3) := by decide +kernel
theorem dX3_beginSum_4 : decode cX3_beginSum 4 = .ok (.aload_n 0, 1) := by decide +kernel
theorem dX3_beginSum_5 : decode cX3_beginSum 5 = .ok (.getfield 84, 3) := by decide +kernel
theorem dX3_beginSum_8 : decode cX3_beginSum 8 = .ok (.aaload, 1) := by decide +kernel
theorem dX3_beginSum_9 : decode cX3_beginSum 9 = .ok (.invokevirtual 134, 3) := by decide +kernel
theorem dX3_beginSum_12 : decode cX3_beginSum 12 = .ok (.aload_n 0, 1) := by decide +kernel
theorem dX3_beginSum_13 : decode cX3_beginSum 13 = .ok (.getfield 32, 3) := by decide +kernel
theorem dX3_beginSum_16 : decode cX3_beginSum 16 = .ok (.aload_n 0, 1) := by decide +kernel
theorem dX3_beginSum_17 : decode cX3_beginSum 17 = .ok (.getfield 84, 3) := by decide +kernel
theorem dX3_beginSum_20 : decode cX3_beginSum 20 = .ok (.iconst 0, 1) := by decide +kernel
theorem dX3_beginSum_21 : decode cX3_beginSum 21 = .ok (.iastore, 1) := by decide +kernel
theorem dX3_beginSum_22 : decode cX3_beginSum 22 = .ok (.aload_n 0, 1) := by decide +kernel
theorem dX3_beginSum_23 : decode cX3_beginSum 23 = .ok (.getfield 36, 3) := by decide +kernel
theorem dX3_beginSum_26 : decode cX3_beginSum 26 = .ok (.aload_n 0, 1) := by decide +kernel
theorem dX3_beginSum_27 : decode cX3_beginSum 27 = .ok (.getfield 84, 3) := by decide +kernel
theorem dX3_beginSum_30 : decode cX3_beginSum 30 = .ok (.iconst 0, 1) := by decide +kernel
theorem dX3_beginSum_31 : decode cX3_beginSum 31 = .ok (.bastore, 1) := by decide +kernel
theorem dX3_beginSum_32 : decode cX3_beginSum 32 = .ok (.return_, 1) := by decide +kernel
set_option maxRecDepth 20000 in
theorem ggX3_useFactor_X2_combine : GoodIn wsX3_useFactor wsX2_combine := goodIn_ca (goodIn_r _ [8, 9, 10, 11, 12, 13, 33, 34] (by decide +kernel) (by decide +kernel)) (goodIn_sub (fun _ h => List.mem_cons_of_mem _ (List.mem_append_right _ h)) (by decide +kernel))
set_option maxRecDepth 20000 in
theorem gX3_useFactor_X2_combine : GoodIn wsX3_useFactor (wsV RX3 149 RX2 yX2_combine wsX2_combine) := goodIn_app (goodIn_of _ (by decide +kernel)) ggX3_useFactor_X2_combine
set_option maxRecDepth 20000 in
theorem ggX3_useFactor_X2_become : GoodIn wsX3_useFactor wsX2_become := goodIn_r _ [17, 11, 12, 33, 34] (by decide +kernel) (by decide +kernel)
set_option maxRecDepth 20000 in
theorem gX3_useFactor_X2_become : GoodIn wsX3_useFactor (wsV RX3 50 RX2 yX2_become wsX2_become) := goodIn_app (goodIn_of _ (by decide +kernel)) ggX3_useFactor_X2_become
theorem dX3_useFactor_0 : decode cX3_useFactor 0 = .ok (.aload_n 0, 1) := by decide +kernel
theorem dX3_useFactor_1 : decode cX3_useFactor 1 = .ok (.getfield 36, 3) := by decide +kernel
theorem dX3_useFactor_4 : decode cX3_useFactor 4 = .ok (.aload_n 0, 1) := by decide +kernel
theorem dX3_useFactor_5 : decode cX3_useFactor 5 = .ok (.getfield 84, 3) := by decide +kernel
theorem dX3_useFactor_8 : decode cX3_useFactor 8 = .ok (.baload, 1) := by decide +kernel
theorem dX3_useFactor_9 : decode cX3_useFactor 9 = .ok (.ifCond .eq 21, 3) := by decide +kernel
theorem dX3_useFactor_12 : decode cX3_useFactor 12 = .ok (.aload_n 0, 1) := by decide +kernel
theorem dX3_useFactor_13 : decode cX3_useFactor 13 = .ok (.getfield 29, 3) := by decide +kernel
theorem dX3_useFactor_16 : decode cX3_useFactor 16 = .ok (.aload_n 0, 1) := by decide +kernel
theorem dX3_useFactor_17 : decode cX3_useFactor 17 = .ok (.getfield 84, 3) := by decide +kernel
theorem dX3_useFactor_20 : decode cX3_useFactor 20 = .ok (.aaload, 1) := by decide +kernel
theorem dX3_useFactor_21 : decode cX3_useFactor 21 = .ok (.iconst 1, 1) := by decide +kernel
theorem dX3_useFactor_22 : decode cX3_useFactor 22 = .ok (.aload_n 1, 1) := by decide +kernel
theorem dX3_useFactor_23 : decode cX3_useFactor 23 = .ok (.invokevirtual 149, 3) := by decide +kernel
theorem dX3_useFactor_26 : decode cX3_useFactor 26 = .ok (.pop, 1) := by decide +kernel
theorem dX3_useFactor_27 : decode cX3_useFactor 27 = .ok (.goto 26, 3) := by decide +kernel
theorem dX3_useFactor_30 : decode cX3_useFactor 30 = .ok (.aload_n 0, 1) := by decide +kernel
theorem dX3_useFactor_31 : decode cX3_useFactor 31 = .ok (.getfield 29, 3) := by decide +kernel
theorem dX3_useFactor_34 : decode cX3_useFactor 34 = .ok (.aload_n 0, 1) := by decide +kernel
theorem dX3_useFactor_35 : decode cX3_useFactor 35 = .ok (.getfield 84, 3) := by decide +kernel
theorem dX3_useFactor_38 : decode cX3_useFactor 38 = .ok (.aaload, 1) := by decide +kernel
theorem dX3_useFactor_39 : decode cX3_useFactor 39 = .ok (.aload_n 1, 1) := by decide +kernel
theorem dX3_useFactor_40 : decode cX3_useFactor 40 = .ok (.invokevirtual 50, 3) := by decide +kernel
theorem dX3_useFactor_43 : decode cX3_useFactor 43 = .ok (.aload_n 0, 1) := by decide +kernel
theorem dX3_useFactor_44 : decode cX3_useFactor 44 = .ok (.getfield 36, 3) := by decide +kernel
theorem dX3_useFactor_47 : decode cX3_useFactor 47 = .ok (.aload_n 0, 1) := by decide +kernel
theorem dX3_useFactor_48 : decode cX3_useFactor 48 = .ok (.getfield 84, 3) := by decide +kernel
theorem dX3_useFactor_51 : decode cX3_useFactor 51 = .ok (.iconst 1, 1) := by decide +kernel
theorem dX3_useFactor_52 : decode cX3_useFactor 52 = .ok (.bastore, 1) := by decide +kernel
theorem dX3_useFactor_53 : decode cX3_useFactor 53 = .ok (.return_, 1) := by decide +kernel
set_option maxRecDepth 20000 in
theorem ggX3_endPart_X2_combine : GoodIn wsX3_endPart wsX2_combine := goodIn_ca (goodIn_r _ [10, 11, 12, 13, 14, 15, 31, 32] (by decide +kernel) (by decide +kernel)) (goodIn_sub (fun _ h => List.mem_cons_of_mem _ (List.mem_append_right _ h)) (by decide +kernel))
set_option maxRecDepth 20000 in
theorem gX3_endPart_X2_combine : GoodIn wsX3_endPart (wsV RX3 149 RX2 yX2_combine wsX2_combine) := goodIn_app (goodIn_of _ (by decide +kernel)) ggX3_endPart_X2_combine
theorem dX3_endPart_0 : decode cX3_endPart 0 = .ok (.aload_n 0, 1) := by decide +kernel
theorem dX3_endPart_1 : decode cX3_endPart 1 = .ok (.getfield 26, 3) := by decide +kernel
theorem dX3_endPart_4 : decode cX3_endPart 4 = .ok (.aload_n 0, 1) := by decide +kernel
theorem dX3_endPart_5 : decode cX3_endPart 5 = .ok (.getfield 84, 3) := by decide +kernel
theorem dX3_endPart_8 : decode cX3_endPart 8 = .ok (.aaload, 1) := by decide +kernel
theorem dX3_endPart_9 : decode cX3_endPart 9 = .ok (.aload_n 0, 1) := by decide +kernel
theorem dX3_endPart_10 : decode cX3_endPart 10 = .ok (.getfield 32, 3) := by decide +kernel
theorem dX3_endPart_13 : decode cX3_endPart 13 = .ok (.aload_n 0, 1) := by decide +kernel
theorem dX3_endPart_14 : decode cX3_endPart 14 = .ok (.getfield 84, 3) := by decide +kernel
theorem dX3_endPart_17 : decode cX3_endPart 17 = .ok (.iaload, 1) := by decide +kernel
theorem dX3_endPart_18 : decode cX3_endPart 18 = .ok (.aload_n 0, 1) := by decide +kernel
theorem dX3_endPart_19 : decode cX3_endPart 19 = .ok (.getfield 29, 3) := by decide +kernel
theorem dX3_endPart_22 : decode cX3_endPart 22 = .ok (.aload_n 0, 1) := by decide +kernel
theorem dX3_endPart_23 : decode cX3_endPart 23 = .ok (.getfield 84, 3) := by decide +kernel
theorem dX3_endPart_26 : decode cX3_endPart 26 = .ok (.aaload, 1) := by decide +kernel
theorem dX3_endPart_27 : decode cX3_endPart 27 = .ok (.invokevirtual 149, 3) := by decide +kernel
theorem dX3_endPart_30 : decode cX3_endPart 30 = .ok (.pop, 1) := by decide +kernel
theorem dX3_endPart_31 : decode cX3_endPart 31 = .ok (.aload_n 0, 1) := by decide +kernel
theorem dX3_endPart_32 : decode cX3_endPart 32 = .ok (.getfield 32, 3) := by decide +kernel
theorem dX3_endPart_35 : decode cX3_endPart 35 = .ok (.aload_n 0, 1) := by decide +kernel
theorem dX3_endPart_36 : decode cX3_endPart 36 = .ok (.getfield 84, 3) := by decide +kernel
theorem dX3_endPart_39 : decode cX3_endPart 39 = .ok (.iload_n 1, 1) := by decide +kernel
theorem dX3_endPart_40 : decode cX3_endPart 40 = .ok (.iastore, 1) := by decide +kernel
theorem dX3_endPart_41 : decode cX3_endPart 41 = .ok (.aload_n 0, 1) := by decide +kernel
theorem dX3_endPart_42 : decode cX3_endPart 42 = .ok (.getfield 36, 3) := by decide +kernel
theorem dX3_endPart_45 : decode cX3_endPart 45 = .ok (.aload_n 0, 1) := by decide +kernel
theorem dX3_endPart_46 : decode cX3_endPart 46 = .ok (.getfield 84, 3) := by decide +kernel
theorem dX3_endPart_49 : decode cX3_endPart 49 = .ok (.iconst 0, 1) := by decide +kernel
theorem dX3_endPart_50 : decode cX3_endPart 50 = .ok (.bastore, 1) := by decide +kernel
theorem dX3_endPart_51 : decode cX3_endPart 51 = .ok (.return_, 1) := by decide +kernel
set_option maxRecDepth 20000 in
theorem ggX3_readFirstItem_X3_useFactor : GoodIn wsX3_readFirstItem wsX3_useFactor := goodIn_ca (goodIn_r _ [6, 7, 8, 9, 10, 11, 12, 13, 14, 15, 16, 17, 18, 19, 20, 21, 22, 23, 76, 77, 78, 79, 80, 81, 82, 83, 84, 85, 86, 87, 88, 89, 90, 91, 92] (by decide +kernel) (by decide +kernel)) (goodIn_sub (fun _ h => List.mem_cons_of_mem _ (List.mem_append_right _ h)) (by decide +kernel))
set_option maxRecDepth 20000 in
theorem gX3_readFirstItem_X3_useFactor : GoodIn wsX3_readFirstItem (wsV RX3 131 RX3 yX3_useFactor wsX3_useFactor) := goodIn_app (goodIn_of _ (by decide +kernel)) ggX3_readFirstItem_X3_useFactor
set_option maxRecDepth 20000 in
theorem ggX3_readFirstItem_X3_pass : GoodIn wsX3_readFirstItem wsX3_pass := goodIn_r _ [27, 28, 29, 76, 77, 78, 79, 80, 81, 82, 83, 84, 85, 86, 87, 88, 89, 90] (by decide +kernel) (by decide +kernel)
set_option maxRecDepth 20000 in
theorem gX3_readFirstItem_X3_pass : GoodIn wsX3_readFirstItem (wsV RX3 125 RX3 yX3_pass wsX3_pass) := goodIn_app (goodIn_of _ (by decide +kernel)) ggX3_readFirstItem_X3_pass
set_option maxRecDepth 20000 in
theorem ggX3_readFirstItem_X3_readItem : GoodIn wsX3_readFirstItem wsX3_readItem := goodIn_r _ [33, 1, 34, 29, 35, 36, 37, 13, 38, 39, 40, 41, 42, 17, 18, 43, 44, 45, 46, 24, 25, 26, 5, 27, 28, 47, 48, 49, 50, 51, 52, 53, 54, 55, 56, 57, 58, 59, 60, 61, 62, 63, 64, 65, 66, 67, 68, 69, 70, 71, 72, 73, 74, 75, 76, 77, 78, 79, 80, 81, 82, 83, 84, 85, 86, 87, 88, 89, 90, 91, 92, 93, 94] (by decide +kernel) (by decide +kernel)
set_option maxRecDepth 20000 in
theorem gX3_readFirstItem_X3_readItem : GoodIn wsX3_readFirstItem (wsV RX3 106 RX3 yX3_readItem wsX3_readItem) := goodIn_app (goodIn_of _ (by decide +kernel)) ggX3_readFirstItem_X3_readItem
theorem dX3_readFirstItem_0 : decode cX3_readFirstItem 0 = .ok (.iload_n 1, 1) := by decide +kernel
theorem dX3_readFirstItem_1 : decode cX3_readFirstItem 1 = .ok (.bipush 125, 2) := by decide +kernel
theorem dX3_readFirstItem_3 : decode cX3_readFirstItem 3 = .ok (.if_icmp .ne 19, 3) := by decide +kernel
theorem dX3_readFirstItem_6 : decode cX3_readFirstItem 6 = .ok (.aload_n 0, 1) := by decide +kernel
theorem dX3_readFirstItem_7 : decode cX3_readFirstItem 7 = .ok (.aload_n 0, 1) := by decide +kernel
theorem dX3_readFirstItem_8 : decode cX3_readFirstItem 8 = .ok (.getfield 22, 3) := by decide +kernel
theorem dX3_readFirstItem_11 : decode cX3_readFirstItem 11 = .ok (.invokevirtual 131, 3) := by decide +kernel
theorem dX3_readFirstItem_14 : decode cX3_readFirstItem 14 = .ok (.aload_n 0, 1) := by decide +kernel
theorem dX3_readFirstItem_15 : decode cX3_readFirstItem 15 = .ok (.iconst 3, 1) := by decide +kernel
theorem dX3_readFirstItem_16 : decode cX3_readFirstItem 16 = .ok (.invokevirtual 125, 3) := by decide +kernel
theorem dX3_readFirstItem_19 : decode cX3_readFirstItem 19 = .ok (.goto 8, 3) := by decide +kernel
theorem dX3_readFirstItem_22 : decode cX3_readFirstItem 22 = .ok (.aload_n 0, 1) := by decide +kernel
theorem dX3_readFirstItem_23 : decode cX3_readFirstItem 23 = .ok (.iload_n 1, 1) := by decide +kernel
theorem dX3_readFirstItem_24 : decode cX3_readFirstItem 24 = .ok (.invokevirtual 106, 3) := by decide +kernel
theorem dX3_readFirstItem_27 : decode cX3_readFirstItem 27 = .ok (.return_, 1) := by decide +kernel
set_option maxRecDepth 20000 in
theorem ggX3_readItem_X2_put : GoodIn wsX3_readItem wsX2_put := goodIn_r _ [8, 9, 10, 11, 7, 12, 13, 14, 15, 16, 17, 18, 69, 70] (by decide +kernel) (by decide +kernel)
set_option maxRecDepth 20000 in
theorem gX3_readItem_X2_put : GoodIn wsX3_readItem (wsV RX3 153 RX2 yX2_put wsX2_put) := goodIn_app (goodIn_of _ (by decide +kernel)) ggX3_readItem_X2_put
set_option maxRecDepth 20000 in
theorem ggX3_readItem_X3_pass : GoodIn wsX3_readItem wsX3_pass := goodIn_r _ [23, 24, 3, 54, 55, 56, 57, 58, 59, 60, 61, 62, 63, 64, 65, 66, 67, 68] (by decide +kernel) (by decide +kernel)
set_option maxRecDepth 20000 in
theorem gX3_readItem_X3_pass : GoodIn wsX3_readItem (wsV RX3 125 RX3 yX3_pass wsX3_pass) := goodIn_app (goodIn_of _ (by decide +kernel)) ggX3_readItem_X3_pass
set_option maxRecDepth 20000 in
theorem ggX3_readItem_X3_isDigit : GoodIn wsX3_readItem wsX3_isDigit := goodIn_r _ [27] (by decide +kernel) (by decide +kernel)
set_option maxRecDepth 20000 in
theorem gX3_readItem_X3_isDigit : GoodIn wsX3_readItem (va_wsS RX3 156 yX3_isDigit wsX3_isDigit) := goodIn_app (goodIn_of _ (by decide +kernel)) ggX3_readItem_X3_isDigit
set_option maxRecDepth 20000 in
theorem ggX3_readItem_X3_readNumber : GoodIn wsX3_readItem wsX3_readNumber := goodIn_r _ [31, 24, 32, 33, 34, 35, 36, 37, 38, 39, 25, 26, 22, 27, 40, 41, 42, 43, 44, 45, 46, 47, 48, 49, 54, 55, 56, 57, 58, 59, 60, 61, 62, 63, 64, 65, 66, 67, 68, 71, 72] (by decide +kernel) (by decide +kernel)
set_option maxRecDepth 20000 in
theorem gX3_readItem_X3_readNumber : GoodIn wsX3_readItem (wsV RX3 159 RX3 yX3_readNumber wsX3_readNumber) := goodIn_app (goodIn_of _ (by decide +kernel)) ggX3_readItem_X3_readNumber
set_option maxRecDepth 20000 in
theorem ggX3_readItem_X3_refuseByte : GoodIn wsX3_readItem wsX3_refuseByte := goodIn_r _ [53, 24, 40, 41, 42, 22, 43, 44, 45, 54, 55, 56, 57, 58, 59, 60, 61, 62, 63, 64, 65, 66, 67, 68] (by decide +kernel) (by decide +kernel)
set_option maxRecDepth 20000 in
theorem gX3_readItem_X3_refuseByte : GoodIn wsX3_readItem (wsV RX3 81 RX3 yX3_refuseByte wsX3_refuseByte) := goodIn_app (goodIn_of _ (by decide +kernel)) ggX3_readItem_X3_refuseByte
theorem dX3_readItem_0 : decode cX3_readItem 0 = .ok (.iload_n 1, 1) := by decide +kernel
theorem dX3_readItem_1 : decode cX3_readItem 1 = .ok (.bipush 35, 2) := by decide +kernel
theorem dX3_readItem_3 : decode cX3_readItem 3 = .ok (.if_icmp .ne 21, 3) := by decide +kernel
theorem dX3_readItem_6 : decode cX3_readItem 6 = .ok (.aload_n 0, 1) := by decide +kernel
theorem dX3_readItem_7 : decode cX3_readItem 7 = .ok (.getfield 22, 3) := by decide +kernel
theorem dX3_readItem_10 : decode cX3_readItem 10 = .ok (.iconst 0, 1) := by decide +kernel
theorem dX3_readItem_11 : decode cX3_readItem 11 = .ok (.invokevirtual 153, 3) := by decide +kernel
theorem dX3_readItem_14 : decode cX3_readItem 14 = .ok (.pop, 1) := by decide +kernel
theorem dX3_readItem_15 : decode cX3_readItem 15 = .ok (.aload_n 0, 1) := by decide +kernel
theorem dX3_readItem_16 : decode cX3_readItem 16 = .ok (.bipush 8, 2) := by decide +kernel
theorem dX3_readItem_18 : decode cX3_readItem 18 = .ok (.invokevirtual 125, 3) := by decide +kernel
theorem dX3_readItem_21 : decode cX3_readItem 21 = .ok (.goto 55, 3) := by decide +kernel
theorem dX3_readItem_24 : decode cX3_readItem 24 = .ok (.iload_n 1, 1) := by decide +kernel
theorem dX3_readItem_25 : decode cX3_readItem 25 = .ok (.bipush 45, 2) := by decide +kernel
theorem dX3_readItem_27 : decode cX3_readItem 27 = .ok (.if_icmp .eq 10, 3) := by decide +kernel
theorem dX3_readItem_30 : decode cX3_readItem 30 = .ok (.iload_n 1, 1) := by decide +kernel
theorem dX3_readItem_31 : decode cX3_readItem 31 = .ok (.invokestatic 156, 3) := by decide +kernel
theorem dX3_readItem_34 : decode cX3_readItem 34 = .ok (.ifCond .eq 38, 3) := by decide +kernel
theorem dX3_readItem_37 : decode cX3_readItem 37 = .ok (.aload_n 0, 1) := by decide +kernel
theorem dX3_readItem_38 : decode cX3_readItem 38 = .ok (.aload_n 0, 1) := by decide +kernel
theorem dX3_readItem_39 : decode cX3_readItem 39 = .ok (.iload_n 1, 1) := by decide +kernel
theorem dX3_readItem_40 : decode cX3_readItem 40 = .ok (.bipush (-50), 2) := by decide +kernel
theorem dX3_readItem_42 : decode cX3_readItem 42 = .ok (.invokevirtual 159, 3) := by decide +kernel
theorem dX3_readItem_45 : decode cX3_readItem 45 = .ok (.putfield 163, 3) := by decide +kernel
theorem dX3_readItem_48 : decode cX3_readItem 48 = .ok (.aload_n 0, 1) := by decide +kernel
theorem dX3_readItem_49 : decode cX3_readItem 49 = .ok (.getfield 22, 3) := by decide +kernel
theorem dX3_readItem_52 : decode cX3_readItem 52 = .ok (.aload_n 0, 1) := by decide +kernel
theorem dX3_readItem_53 : decode cX3_readItem 53 = .ok (.getfield 163, 3) := by decide +kernel
theorem dX3_readItem_56 : decode cX3_readItem 56 = .ok (.bipush 51, 2) := by decide +kernel
theorem dX3_readItem_58 : decode cX3_readItem 58 = .ok (.iadd, 1) := by decide +kernel
theorem dX3_readItem_59 : decode cX3_readItem 59 = .ok (.invokevirtual 153, 3) := by decide +kernel
theorem dX3_readItem_62 : decode cX3_readItem 62 = .ok (.pop, 1) := by decide +kernel
theorem dX3_readItem_63 : decode cX3_readItem 63 = .ok (.aload_n 0, 1) := by decide +kernel
theorem dX3_readItem_64 : decode cX3_readItem 64 = .ok (.bipush 6, 2) := by decide +kernel
theorem dX3_readItem_66 : decode cX3_readItem 66 = .ok (.putfield 78, 3) := by decide +kernel
theorem dX3_readItem_69 : decode cX3_readItem 69 = .ok (.goto 7, 3) := by decide +kernel
theorem dX3_readItem_72 : decode cX3_readItem 72 = .ok (.aload_n 0, 1) := by decide +kernel
theorem dX3_readItem_73 : decode cX3_readItem 73 = .ok (.invokevirtual 81, 3) := by decide +kernel
theorem dX3_readItem_76 : decode cX3_readItem 76 = .ok (.return_, 1) := by decide +kernel
set_option maxRecDepth 20000 in
theorem ggX3_readBehindNumber_X4_byteAt : GoodIn wsX3_readBehindNumber wsX4_byteAt := goodIn_r _ [7, 8, 9, 67, 68] (by decide +kernel) (by decide +kernel)
set_option maxRecDepth 20000 in
theorem gX3_readBehindNumber_X4_byteAt : GoodIn wsX3_readBehindNumber (wsV RX3 70 RX4 yX4_byteAt wsX4_byteAt) := goodIn_app (goodIn_of _ (by decide +kernel)) ggX3_readBehindNumber_X4_byteAt
set_option maxRecDepth 20000 in
theorem ggX3_readBehindNumber_X3_pass : GoodIn wsX3_readBehindNumber wsX3_pass := goodIn_r _ [14, 1, 15, 52, 53, 54, 55, 56, 57, 58, 59, 60, 61, 62, 63, 64, 65, 66] (by decide +kernel) (by decide +kernel)
set_option maxRecDepth 20000 in
theorem gX3_readBehindNumber_X3_pass : GoodIn wsX3_readBehindNumber (wsV RX3 125 RX3 yX3_pass wsX3_pass) := goodIn_app (goodIn_of _ (by decide +kernel)) ggX3_readBehindNumber_X3_pass
set_option maxRecDepth 20000 in
theorem ggX3_readBehindNumber_X3_refuseByte : GoodIn wsX3_readBehindNumber wsX3_refuseByte := goodIn_r _ [19, 1, 20, 21, 22, 13, 23, 24, 25, 52, 53, 54, 55, 56, 57, 58, 59, 60, 61, 62, 63, 64, 65, 66] (by decide +kernel) (by decide +kernel)
set_option maxRecDepth 20000 in
theorem gX3_readBehindNumber_X3_refuseByte : GoodIn wsX3_readBehindNumber (wsV RX3 81 RX3 yX3_refuseByte wsX3_refuseByte) := goodIn_app (goodIn_of _ (by decide +kernel)) ggX3_readBehindNumber_X3_refuseByte
set_option maxRecDepth 20000 in
theorem ggX3_readBehindNumber_X3_readBehindItem : GoodIn wsX3_readBehindNumber wsX3_readBehindItem := goodIn_ca (goodIn_r _ [29, 30, 10, 11, 12, 13, 14, 1, 15, 31, 32, 33, 34, 35, 36, 37, 38, 39, 40, 41, 42, 43, 44, 45, 46, 47, 48, 49, 50, 51, 16, 17, 18, 19, 20, 21, 22, 23, 24, 25, 52, 53, 54, 55, 56, 57, 58, 59, 60, 61, 62, 63, 64, 65, 66, 69, 70] (by decide +kernel) (by decide +kernel)) (goodIn_sub (fun _ h => List.mem_cons_of_mem _ (List.mem_append_right _ h)) (by decide +kernel))
set_option maxRecDepth 20000 in
theorem gX3_readBehindNumber_X3_readBehindItem : GoodIn wsX3_readBehindNumber (wsV RX3 115 RX3 yX3_readBehindItem wsX3_readBehindItem) := goodIn_app (goodIn_of _ (by decide +kernel)) ggX3_readBehindNumber_X3_readBehindItem
theorem dX3_readBehindNumber_0 : decode cX3_readBehindNumber 0 = .ok (.iload_n 1, 1) := by decide +kernel
theorem dX3_readBehindNumber_1 : decode cX3_readBehindNumber 1 = .ok (.bipush 46, 2) := by decide +kernel
theorem dX3_readBehindNumber_3 : decode cX3_readBehindNumber 3 = .ok (.if_icmp .ne 45, 3) := by decide +kernel
theorem dX3_readBehindNumber_6 : decode cX3_readBehindNumber 6 = .ok (.aload_n 0, 1) := by decide +kernel
theorem dX3_readBehindNumber_7 : decode cX3_readBehindNumber 7 = .ok (.dup, 1) := by decide +kernel
theorem dX3_readBehindNumber_8 : decode cX3_readBehindNumber 8 = .ok (.getfield 61, 3) := by decide +kernel
theorem dX3_readBehindNumber_11 : decode cX3_readBehindNumber 11 = .ok (.iconst 1, 1) := by decide +kernel
theorem dX3_readBehindNumber_12 : decode cX3_readBehindNumber 12 = .ok (.iadd, 1) := by decide +kernel
theorem dX3_readBehindNumber_13 : decode cX3_readBehindNumber 13 = .ok (.putfield 61, 3) := by decide +kernel
theorem dX3_readBehindNumber_16 : decode cX3_readBehindNumber 16 = .ok (.aload_n 0, 1) := by decide +kernel
theorem dX3_readBehindNumber_17 : decode cX3_readBehindNumber 17 = .ok (.getfield 9, 3) := by decide +kernel
theorem dX3_readBehindNumber_20 : decode cX3_readBehindNumber 20 = .ok (.aload_n 0, 1) := by decide +kernel
theorem dX3_readBehindNumber_21 : decode cX3_readBehindNumber 21 = .ok (.getfield 61, 3) := by decide +kernel
theorem dX3_readBehindNumber_24 : decode cX3_readBehindNumber 24 = .ok (.invokevirtual 70, 3) := by decide +kernel
theorem dX3_readBehindNumber_27 : decode cX3_readBehindNumber 27 = .ok (.bipush 46, 2) := by decide +kernel
theorem dX3_readBehindNumber_29 : decode cX3_readBehindNumber 29 = .ok (.if_icmp .ne 12, 3) := by decide +kernel
theorem dX3_readBehindNumber_32 : decode cX3_readBehindNumber 32 = .ok (.aload_n 0, 1) := by decide +kernel
theorem dX3_readBehindNumber_33 : decode cX3_readBehindNumber 33 = .ok (.bipush 7, 2) := by decide +kernel
theorem dX3_readBehindNumber_35 : decode cX3_readBehindNumber 35 = .ok (.invokevirtual 125, 3) := by decide +kernel
theorem dX3_readBehindNumber_38 : decode cX3_readBehindNumber 38 = .ok (.goto 15, 3) := by decide +kernel
theorem dX3_readBehindNumber_41 : decode cX3_readBehindNumber 41 = .ok (.aload_n 0, 1) := by decide +kernel
theorem dX3_readBehindNumber_42 : decode cX3_readBehindNumber 42 = .ok (.invokevirtual 81, 3) := by decide +kernel
theorem dX3_readBehindNumber_45 : decode cX3_readBehindNumber 45 = .ok (.goto 8, 3) := by decide +kernel
theorem dX3_readBehindNumber_48 : decode cX3_readBehindNumber 48 = .ok (.aload_n 0, 1) := by decide +kernel
theorem dX3_readBehindNumber_49 : decode cX3_readBehindNumber 49 = .ok (.iload_n 1, 1) := by decide +kernel
theorem dX3_readBehindNumber_50 : decode cX3_readBehindNumber 50 = .ok (.invokevirtual 115, 3) := by decide +kernel
theorem dX3_readBehindNumber_53 : decode cX3_readBehindNumber 53 = .ok (.return_, 1) := by decide +kernel
set_option maxRecDepth 20000 in
theorem ggX3_readSecondNumber_X3_isDigit : GoodIn wsX3_readSecondNumber wsX3_isDigit := goodIn_r _ [7] (by decide +kernel) (by decide +kernel)
set_option maxRecDepth 20000 in
theorem gX3_readSecondNumber_X3_isDigit : GoodIn wsX3_readSecondNumber (va_wsS RX3 156 yX3_isDigit wsX3_isDigit) := goodIn_app (goodIn_of _ (by decide +kernel)) ggX3_readSecondNumber_X3_isDigit
set_option maxRecDepth 20000 in
theorem ggX3_readSecondNumber_X3_readNumber : GoodIn wsX3_readSecondNumber wsX3_readNumber := goodIn_r _ [11, 12, 13, 14, 15, 16, 17, 18, 19, 20, 4, 5, 6, 7, 21, 22, 23, 24, 25, 26, 27, 28, 29, 30, 50, 51, 52, 53, 54, 55, 56, 57, 58, 59, 60, 61, 62, 63, 64, 65, 66] (by decide +kernel) (by decide +kernel)
set_option maxRecDepth 20000 in
theorem gX3_readSecondNumber_X3_readNumber : GoodIn wsX3_readSecondNumber (wsV RX3 159 RX3 yX3_readNumber wsX3_readNumber) := goodIn_app (goodIn_of _ (by decide +kernel)) ggX3_readSecondNumber_X3_readNumber
set_option maxRecDepth 20000 in
theorem ggX3_readSecondNumber_X2_put : GoodIn wsX3_readSecondNumber wsX2_put := goodIn_r _ [35, 36, 37, 38, 34, 39, 40, 41, 42, 43, 44, 45, 67, 68] (by decide +kernel) (by decide +kernel)
set_option maxRecDepth 20000 in
theorem gX3_readSecondNumber_X2_put : GoodIn wsX3_readSecondNumber (wsV RX3 153 RX2 yX2_put wsX2_put) := goodIn_app (goodIn_of _ (by decide +kernel)) ggX3_readSecondNumber_X2_put
set_option maxRecDepth 20000 in
theorem ggX3_readSecondNumber_X3_refuseByte : GoodIn wsX3_readSecondNumber wsX3_refuseByte := goodIn_r _ [49, 12, 21, 22, 23, 6, 24, 25, 26, 50, 51, 52, 53, 54, 55, 56, 57, 58, 59, 60, 61, 62, 63, 64] (by decide +kernel) (by decide +kernel)
set_option maxRecDepth 20000 in
theorem gX3_readSecondNumber_X3_refuseByte : GoodIn wsX3_readSecondNumber (wsV RX3 81 RX3 yX3_refuseByte wsX3_refuseByte) := goodIn_app (goodIn_of _ (by decide +kernel)) ggX3_readSecondNumber_X3_refuseByte
theorem dX3_readSecondNumber_0 : decode cX3_readSecondNumber 0 = .ok (.iload_n 1, 1) := by decide +kernel
theorem dX3_readSecondNumber_1 : decode cX3_readSecondNumber 1 = .ok (.bipush 45, 2) := by decide +kernel
theorem dX3_readSecondNumber_3 : decode cX3_readSecondNumber 3 = .ok (.if_icmp .eq 10, 3) := by decide +kernel
theorem dX3_readSecondNumber_6 : decode cX3_readSecondNumber 6 = .ok (.iload_n 1, 1) := by decide +kernel
theorem dX3_readSecondNumber_7 : decode cX3_readSecondNumber 7 = .ok (.invokestatic 156, 3) := by decide +kernel
theorem dX3_readSecondNumber_10 : decode cX3_readSecondNumber 10 = .ok (.ifCond .eq 56, 3) := by decide +kernel
theorem dX3_readSecondNumber_13 : decode cX3_readSecondNumber 13 = .ok (.aload_n 0, 1) := by decide +kernel
theorem dX3_readSecondNumber_14 : decode cX3_readSecondNumber 14 = .ok (.iload_n 1, 1) := by decide +kernel
theorem dX3_readSecondNumber_15 : decode cX3_readSecondNumber 15 = .ok (.aload_n 0, 1) := by decide +kernel
theorem dX3_readSecondNumber_16 : decode cX3_readSecondNumber 16 = .ok (.getfield 163, 3) := by decide +kernel
theorem dX3_readSecondNumber_19 : decode cX3_readSecondNumber 19 = .ok (.invokevirtual 159, 3) := by decide +kernel
theorem dX3_readSecondNumber_22 : decode cX3_readSecondNumber 22 = .ok (.istore_n 2, 1) := by decide +kernel
theorem dX3_readSecondNumber_23 : decode cX3_readSecondNumber 23 = .ok (.aload_n 0, 1) := by decide +kernel
theorem dX3_readSecondNumber_24 : decode cX3_readSecondNumber 24 = .ok (.getfield 163, 3) := by decide +kernel
theorem dX3_readSecondNumber_27 : decode cX3_readSecondNumber 27 = .ok (.istore_n 3, 1) := by decide +kernel
theorem dX3_readSecondNumber_28 : decode cX3_readSecondNumber 28 = .ok (.iload_n 3, 1) := by decide +kernel
theorem dX3_readSecondNumber_29 : decode cX3_readSecondNumber 29 = .ok (.iload_n 2, 1) := by decide +kernel
theorem dX3_readSecondNumber_30 : decode cX3_readSecondNumber 30 = .ok (.if_icmp .gt 27, 3) := by decide +kernel
theorem dX3_readSecondNumber_33 : decode cX3_readSecondNumber 33 = .ok (.iload_n 3, 1) := by decide +kernel
theorem dX3_readSecondNumber_34 : decode cX3_readSecondNumber 34 = .ok (.bipush 50, 2) := by decide +kernel
theorem dX3_readSecondNumber_36 : decode cX3_readSecondNumber 36 = .ok (.if_icmp .gt 21, 3) := by decide +kernel
theorem dX3_readSecondNumber_39 : decode cX3_readSecondNumber 39 = .ok (.aload_n 0, 1) := by decide +kernel
theorem dX3_readSecondNumber_40 : decode cX3_readSecondNumber 40 = .ok (.getfield 22, 3) := by decide +kernel
theorem dX3_readSecondNumber_43 : decode cX3_readSecondNumber 43 = .ok (.iload_n 3, 1) := by decide +kernel
theorem dX3_readSecondNumber_44 : decode cX3_readSecondNumber 44 = .ok (.bipush 51, 2) := by decide +kernel
theorem dX3_readSecondNumber_46 : decode cX3_readSecondNumber 46 = .ok (.iadd, 1) := by decide +kernel
theorem dX3_readSecondNumber_47 : decode cX3_readSecondNumber 47 = .ok (.invokevirtual 153, 3) := by decide +kernel
theorem dX3_readSecondNumber_50 : decode cX3_readSecondNumber 50 = .ok (.pop, 1) := by decide +kernel
theorem dX3_readSecondNumber_51 : decode cX3_readSecondNumber 51 = .ok (.iinc 3 1, 3) := by decide +kernel
theorem dX3_readSecondNumber_54 : decode cX3_readSecondNumber 54 = .ok (.goto (-26), 3) := by decide +kernel
theorem dX3_readSecondNumber_57 : decode cX3_readSecondNumber 57 = .ok (.aload_n 0, 1) := by decide +kernel
theorem dX3_readSecondNumber_58 : decode cX3_readSecondNumber 58 = .ok (.bipush 8, 2) := by decide +kernel
theorem dX3_readSecondNumber_60 : decode cX3_readSecondNumber 60 = .ok (.putfield 78, 3) := by decide +kernel
theorem dX3_readSecondNumber_63 : decode cX3_readSecondNumber 63 = .ok (.goto 7, 3) := by decide +kernel
theorem dX3_readSecondNumber_66 : decode cX3_readSecondNumber 66 = .ok (.aload_n 0, 1) := by decide +kernel
theorem dX3_readSecondNumber_67 : decode cX3_readSecondNumber 67 = .ok (.invokevirtual 81, 3) := by decide +kernel
theorem dX3_readSecondNumber_70 : decode cX3_readSecondNumber 70 = .ok (.return_, 1) := by decide +kernel
set_option maxRecDepth 20000 in
theorem ggX3_readBehindItem_X3_pass : GoodIn wsX3_readBehindItem wsX3_pass := goodIn_r _ [6, 7, 8, 40, 41, 42, 43, 44, 45, 46, 47, 48, 49, 50, 51, 52, 53, 54] (by decide +kernel) (by decide +kernel)
set_option maxRecDepth 20000 in
theorem gX3_readBehindItem_X3_pass : GoodIn wsX3_readBehindItem (wsV RX3 125 RX3 yX3_pass wsX3_pass) := goodIn_app (goodIn_of _ (by decide +kernel)) ggX3_readBehindItem_X3_pass
set_option maxRecDepth 20000 in
theorem ggX3_readBehindItem_X3_useFactor : GoodIn wsX3_readBehindItem wsX3_useFactor := goodIn_ca (goodIn_r _ [12, 13, 14, 15, 16, 17, 18, 19, 20, 21, 22, 23, 24, 25, 26, 27, 28, 29, 40, 41, 42, 43, 44, 45, 46, 47, 48, 49, 50, 51, 52, 53, 54, 55, 56] (by decide +kernel) (by decide +kernel)) (goodIn_sub (fun _ h => List.mem_cons_of_mem _ (List.mem_append_right _ h)) (by decide +kernel))
set_option maxRecDepth 20000 in
theorem gX3_readBehindItem_X3_useFactor : GoodIn wsX3_readBehindItem (wsV RX3 131 RX3 yX3_useFactor wsX3_useFactor) := goodIn_app (goodIn_of _ (by decide +kernel)) ggX3_readBehindItem_X3_useFactor
set_option maxRecDepth 20000 in
theorem ggX3_readBehindItem_X3_refuseByte : GoodIn wsX3_readBehindItem wsX3_refuseByte := goodIn_r _ [33, 7, 34, 35, 36, 5, 37, 38, 39, 40, 41, 42, 43, 44, 45, 46, 47, 48, 49, 50, 51, 52, 53, 54] (by decide +kernel) (by decide +kernel)
set_option maxRecDepth 20000 in
theorem gX3_readBehindItem_X3_refuseByte : GoodIn wsX3_readBehindItem (wsV RX3 81 RX3 yX3_refuseByte wsX3_refuseByte) := goodIn_app (goodIn_of _ (by decide +kernel)) ggX3_readBehindItem_X3_refuseByte
theorem dX3_readBehindItem_0 : decode cX3_readBehindItem 0 = .ok (.iload_n 1, 1) := by decide +kernel
theorem dX3_readBehindItem_1 : decode cX3_readBehindItem 1 = .ok (.bipush 44, 2) := by decide +kernel
theorem dX3_readBehindItem_3 : decode cX3_readBehindItem 3 = .ok (.if_icmp .ne 11, 3) := by decide +kernel
theorem dX3_readBehindItem_6 : decode cX3_readBehindItem 6 = .ok (.aload_n 0, 1) := by decide +kernel
theorem dX3_readBehindItem_7 : decode cX3_readBehindItem 7 = .ok (.iconst 5, 1) := by decide +kernel
theorem dX3_readBehindItem_8 : decode cX3_readBehindItem 8 = .ok (.invokevirtual 125, 3) := by decide +kernel
theorem dX3_readBehindItem_11 : decode cX3_readBehindItem 11 = .ok (.goto 29, 3) := by decide +kernel
theorem dX3_readBehindItem_14 : decode cX3_readBehindItem 14 = .ok (.iload_n 1, 1) := by decide +kernel
theorem dX3_readBehindItem_15 : decode cX3_readBehindItem 15 = .ok (.bipush 125, 2) := by decide +kernel
theorem dX3_readBehindItem_17 : decode cX3_readBehindItem 17 = .ok (.if_icmp .ne 19, 3) := by decide +kernel
theorem dX3_readBehindItem_20 : decode cX3_readBehindItem 20 = .ok (.aload_n 0, 1) := by decide +kernel
theorem dX3_readBehindItem_21 : decode cX3_readBehindItem 21 = .ok (.aload_n 0, 1) := by decide +kernel
theorem dX3_readBehindItem_22 : decode cX3_readBehindItem 22 = .ok (.getfield 22, 3) := by decide +kernel
theorem dX3_readBehindItem_25 : decode cX3_readBehindItem 25 = .ok (.invokevirtual 131, 3) := by decide +kernel
theorem dX3_readBehindItem_28 : decode cX3_readBehindItem 28 = .ok (.aload_n 0, 1) := by decide +kernel
theorem dX3_readBehindItem_29 : decode cX3_readBehindItem 29 = .ok (.iconst 3, 1) := by decide +kernel
theorem dX3_readBehindItem_30 : decode cX3_readBehindItem 30 = .ok (.invokevirtual 125, 3) := by decide +kernel
theorem dX3_readBehindItem_33 : decode cX3_readBehindItem 33 = .ok (.goto 7, 3) := by decide +kernel
theorem dX3_readBehindItem_36 : decode cX3_readBehindItem 36 = .ok (.aload_n 0, 1) := by decide +kernel
theorem dX3_readBehindItem_37 : decode cX3_readBehindItem 37 = .ok (.invokevirtual 81, 3) := by decide +kernel
theorem dX3_readBehindItem_40 : decode cX3_readBehindItem 40 = .ok (.return_, 1) := by decide +kernel
theorem dX3_isDigit_0 : decode cX3_isDigit 0 = .ok (.iload_n 0, 1) := by decide +kernel
theorem dX3_isDigit_1 : decode cX3_isDigit 1 = .ok (.bipush 48, 2) := by decide +kernel
theorem dX3_isDigit_3 : decode cX3_isDigit 3 = .ok (.if_icmp .lt 13, 3) := by decide +kernel
theorem dX3_isDigit_6 : decode cX3_isDigit 6 = .ok (.iload_n 0, 1) := by decide +kernel
theorem dX3_isDigit_7 : decode cX3_isDigit 7 = .ok (.bipush 57, 2) := by decide +kernel
theorem dX3_isDigit_9 : decode cX3_isDigit 9 = .ok (.if_icmp .gt 7, 3) := by decide +kernel
theorem dX3_isDigit_12 : decode cX3_isDigit 12 = .ok (.iconst 1, 1) := by decide +kernel
theorem dX3_isDigit_13 : decode cX3_isDigit 13 = .ok (.goto 4, 3) := by decide +kernel
theorem dX3_isDigit_16 : decode cX3_isDigit 16 = .ok (.iconst 0, 1) := by decide +kernel
theorem dX3_isDigit_17 : decode cX3_isDigit 17 = .ok (.ireturn, 1) := by decide +kernel
set_option maxRecDepth 20000 in
theorem ggX3_readNumber_X4_byteAt : GoodIn wsX3_readNumber wsX4_byteAt := goodIn_r _ [7, 8, 9, 39, 40] (by decide +kernel) (by decide +kernel)
set_option maxRecDepth 20000 in
theorem gX3_readNumber_X4_byteAt : GoodIn wsX3_readNumber (wsV RX3 70 RX4 yX4_byteAt wsX4_byteAt) := goodIn_app (goodIn_of _ (by decide +kernel)) ggX3_readNumber_X4_byteAt
set_option maxRecDepth 20000 in
theorem ggX3_readNumber_X3_isDigit : GoodIn wsX3_readNumber wsX3_isDigit := goodIn_r _ [13] (by decide +kernel) (by decide +kernel)
set_option maxRecDepth 20000 in
theorem gX3_readNumber_X3_isDigit : GoodIn wsX3_readNumber (va_wsS RX3 156 yX3_isDigit wsX3_isDigit) := goodIn_app (goodIn_of _ (by decide +kernel)) ggX3_readNumber_X3_isDigit
set_option maxRecDepth 20000 in
theorem ggX3_readNumber_X3_fail : GoodIn wsX3_readNumber wsX3_fail := goodIn_r _ [17, 18, 19, 24, 25, 26, 27, 28, 29, 30, 31, 32, 33, 34, 35, 36, 37, 38] (by decide +kernel) (by decide +kernel)
set_option maxRecDepth 20000 in
theorem gX3_readNumber_X3_fail : GoodIn wsX3_readNumber (wsV RX3 87 RX3 yX3_fail wsX3_fail) := goodIn_app (goodIn_of _ (by decide +kernel)) ggX3_readNumber_X3_fail
set_option maxRecDepth 20000 in
theorem ggX3_readNumber_X4_length : GoodIn wsX3_readNumber wsX4_length := goodIn_r _ [23, 8, 39, 40] (by decide +kernel) (by decide +kernel)
set_option maxRecDepth 20000 in
theorem gX3_readNumber_X4_length : GoodIn wsX3_readNumber (wsV RX3 64 RX4 yX4_length wsX4_length) := goodIn_app (goodIn_of _ (by decide +kernel)) ggX3_readNumber_X4_length
theorem dX3_readNumber_0 : decode cX3_readNumber 0 = .ok (.aload_n 0, 1) := by decide +kernel
theorem dX3_readNumber_1 : decode cX3_readNumber 1 = .ok (.getfield 61, 3) := by decide +kernel
theorem dX3_readNumber_4 : decode cX3_readNumber 4 = .ok (.istore_n 3, 1) := by decide +kernel
theorem dX3_readNumber_5 : decode cX3_readNumber 5 = .ok (.iload_n 1, 1) := by decide +kernel
theorem dX3_readNumber_6 : decode cX3_readNumber 6 = .ok (.bipush 45, 2) := by decide +kernel
theorem dX3_readNumber_8 : decode cX3_readNumber 8 = .ok (.if_icmp .ne 13, 3) := by decide +kernel
theorem dX3_readNumber_11 : decode cX3_readNumber 11 = .ok (.aload_n 0, 1) := by decide +kernel
theorem dX3_readNumber_12 : decode cX3_readNumber 12 = .ok (.dup, 1) := by decide +kernel
theorem dX3_readNumber_13 : decode cX3_readNumber 13 = .ok (.getfield 61, 3) := by decide +kernel
theorem dX3_readNumber_16 : decode cX3_readNumber 16 = .ok (.iconst 1, 1) := by decide +kernel
theorem dX3_readNumber_17 : decode cX3_readNumber 17 = .ok (.iadd, 1) := by decide +kernel
theorem dX3_readNumber_18 : decode cX3_readNumber 18 = .ok (.putfield 61, 3) := by decide +kernel
theorem dX3_readNumber_21 : decode cX3_readNumber 21 = .ok (.aload_n 0, 1) := by decide +kernel
theorem dX3_readNumber_22 : decode cX3_readNumber 22 = .ok (.getfield 9, 3) := by decide +kernel
theorem dX3_readNumber_25 : decode cX3_readNumber 25 = .ok (.aload_n 0, 1) := by decide +kernel
theorem dX3_readNumber_26 : decode cX3_readNumber 26 = .ok (.getfield 61, 3) := by decide +kernel
theorem dX3_readNumber_29 : decode cX3_readNumber 29 = .ok (.invokevirtual 70, 3) := by decide +kernel
theorem dX3_readNumber_32 : decode cX3_readNumber 32 = .ok (.invokestatic 156, 3) := by decide +kernel
theorem dX3_readNumber_35 : decode cX3_readNumber 35 = .ok (.ifCond .ne 14, 3) := by decide +kernel
theorem dX3_readNumber_38 : decode cX3_readNumber 38 = .ok (.aload_n 0, 1) := by decide +kernel
theorem dX3_readNumber_39 : decode cX3_readNumber 39 = .ok (.iconst 1, 1) := by decide +kernel
theorem dX3_readNumber_40 : decode cX3_readNumber 40 = .ok (.aload_n 0, 1) := by decide +kernel
theorem dX3_readNumber_41 : decode cX3_readNumber 41 = .ok (.getfield 61, 3) := by decide +kernel
theorem dX3_readNumber_44 : decode cX3_readNumber 44 = .ok (.invokevirtual 87, 3) := by decide +kernel
theorem dX3_readNumber_47 : decode cX3_readNumber 47 = .ok (.iconst 0, 1) := by decide +kernel
theorem dX3_readNumber_48 : decode cX3_readNumber 48 = .ok (.ireturn, 1) := by decide +kernel
theorem dX3_readNumber_49 : decode cX3_readNumber 49 = .ok (.iconst 0, 1) := by decide +kernel
theorem dX3_readNumber_50 : decode cX3_readNumber 50 = .ok (.istore 4, 2) := by decide +kernel
theorem dX3_readNumber_52 : decode cX3_readNumber 52 = .ok (.aload_n 0, 1) := by decide +kernel
theorem dX3_readNumber_53 : decode cX3_readNumber 53 = .ok (.getfield 61, 3) := by decide +kernel
theorem dX3_readNumber_56 : decode cX3_readNumber 56 = .ok (.aload_n 0, 1) := by decide +kernel
theorem dX3_readNumber_57 : decode cX3_readNumber 57 = .ok (.getfield 9, 3) := by decide +kernel
theorem dX3_readNumber_60 : decode cX3_readNumber 60 = .ok (.invokevirtual 64, 3) := by decide +kernel
theorem dX3_readNumber_63 : decode cX3_readNumber 63 = .ok (.if_icmp .ge 62, 3) := by decide +kernel
theorem dX3_readNumber_66 : decode cX3_readNumber 66 = .ok (.aload_n 0, 1) := by decide +kernel
theorem dX3_readNumber_67 : decode cX3_readNumber 67 = .ok (.getfield 9, 3) := by decide +kernel
theorem dX3_readNumber_70 : decode cX3_readNumber 70 = .ok (.aload_n 0, 1) := by decide +kernel
theorem dX3_readNumber_71 : decode cX3_readNumber 71 = .ok (.getfield 61, 3) := by decide +kernel
theorem dX3_readNumber_74 : decode cX3_readNumber 74 = .ok (.invokevirtual 70, 3) := by decide +kernel
theorem dX3_readNumber_77 : decode cX3_readNumber 77 = .ok (.invokestatic 156, 3) := by decide +kernel
theorem dX3_readNumber_80 : decode cX3_readNumber 80 = .ok (.ifCond .eq 45, 3) := by decide +kernel
theorem dX3_readNumber_83 : decode cX3_readNumber 83 = .ok (.iload 4, 2) := by decide +kernel
theorem dX3_readNumber_85 : decode cX3_readNumber 85 = .ok (.bipush 50, 2) := by decide +kernel
theorem dX3_readNumber_87 : decode cX3_readNumber 87 = .ok (.if_icmp .gt 25, 3) := by decide +kernel
theorem dX3_readNumber_90 : decode cX3_readNumber 90 = .ok (.iload 4, 2) := by decide +kernel
theorem dX3_readNumber_92 : decode cX3_readNumber 92 = .ok (.bipush 10, 2) := by decide +kernel
theorem dX3_readNumber_94 : decode cX3_readNumber 94 = .ok (.imul, 1) := by decide +kernel
theorem dX3_readNumber_95 : decode cX3_readNumber 95 = .ok (.aload_n 0, 1) := by decide +kernel
theorem dX3_readNumber_96 : decode cX3_readNumber 96 = .ok (.getfield 9, 3) := by decide +kernel
theorem dX3_readNumber_99 : decode cX3_readNumber 99 = .ok (.aload_n 0, 1) := by decide +kernel
theorem dX3_readNumber_100 : decode cX3_readNumber 100 = .ok (.getfield 61, 3) := by decide +kernel
theorem dX3_readNumber_103 : decode cX3_readNumber 103 = .ok (.invokevirtual 70, 3) := by decide +kernel
theorem dX3_readNumber_106 : decode cX3_readNumber 106 = .ok (.bipush 48, 2) := by decide +kernel
theorem dX3_readNumber_108 : decode cX3_readNumber 108 = .ok (.isub, 1) := by decide +kernel
theorem dX3_readNumber_109 : decode cX3_readNumber 109 = .ok (.iadd, 1) := by decide +kernel
theorem dX3_readNumber_110 : decode cX3_readNumber 110 = .ok (.istore 4, 2) := by decide +kernel
theorem dX3_readNumber_112 : decode cX3_readNumber 112 = .ok (.aload_n 0, 1) := by decide +kernel
theorem dX3_readNumber_113 : decode cX3_readNumber 113 = .ok (.dup, 1) := by decide +kernel
theorem dX3_readNumber_114 : decode cX3_readNumber 114 = .ok (.getfield 61, 3) := by decide +kernel
theorem dX3_readNumber_117 : decode cX3_readNumber 117 = .ok (.iconst 1, 1) := by decide +kernel
theorem dX3_readNumber_118 : decode cX3_readNumber 118 = .ok (.iadd, 1) := by decide +kernel
theorem dX3_readNumber_119 : decode cX3_readNumber 119 = .ok (.putfield 61, 3) := by decide +kernel
theorem dX3_readNumber_122 : decode cX3_readNumber 122 = .ok (.goto (-70), 3) := by decide +kernel
theorem dX3_readNumber_125 : decode cX3_readNumber 125 = .ok (.iload_n 1, 1) := by decide +kernel
theorem dX3_readNumber_126 : decode cX3_readNumber 126 = .ok (.bipush 45, 2) := by decide +kernel
theorem dX3_readNumber_128 : decode cX3_readNumber 128 = .ok (.if_icmp .ne 9, 3) := by decide +kernel
theorem dX3_readNumber_131 : decode cX3_readNumber 131 = .ok (.iload 4, 2) := by decide +kernel
theorem dX3_readNumber_133 : decode cX3_readNumber 133 = .ok (.ineg, 1) := by decide +kernel
theorem dX3_readNumber_134 : decode cX3_readNumber 134 = .ok (.goto 5, 3) := by decide +kernel
theorem dX3_readNumber_137 : decode cX3_readNumber 137 = .ok (.iload 4, 2) := by decide +kernel
theorem dX3_readNumber_139 : decode cX3_readNumber 139 = .ok (.istore 5, 2) := by decide +kernel
theorem dX3_readNumber_141 : decode cX3_readNumber 141 = .ok (.iload 5, 2) := by decide +kernel
theorem dX3_readNumber_143 : decode cX3_readNumber 143 = .ok (.iload_n 2, 1) := by decide +kernel
theorem dX3_readNumber_144 : decode cX3_readNumber 144 = .ok (.if_icmp .lt 10, 3) := by decide +kernel
theorem dX3_readNumber_147 : decode cX3_readNumber 147 = .ok (.iload 5, 2) := by decide +kernel
theorem dX3_readNumber_149 : decode cX3_readNumber 149 = .ok (.bipush 50, 2) := by decide +kernel
theorem dX3_readNumber_151 : decode cX3_readNumber 151 = .ok (.if_icmp .le 11, 3) := by decide +kernel
theorem dX3_readNumber_154 : decode cX3_readNumber 154 = .ok (.aload_n 0, 1) := by decide +kernel
theorem dX3_readNumber_155 : decode cX3_readNumber 155 = .ok (.iconst 2, 1) := by decide +kernel
theorem dX3_readNumber_156 : decode cX3_readNumber 156 = .ok (.iload_n 3, 1) := by decide +kernel
theorem dX3_readNumber_157 : decode cX3_readNumber 157 = .ok (.invokevirtual 87, 3) := by decide +kernel
theorem dX3_readNumber_160 : decode cX3_readNumber 160 = .ok (.iconst 0, 1) := by decide +kernel
theorem dX3_readNumber_161 : decode cX3_readNumber 161 = .ok (.ireturn, 1) := by decide +kernel
theorem dX3_readNumber_162 : decode cX3_readNumber 162 = .ok (.iload 5, 2) := by decide +kernel
theorem dX3_readNumber_164 : decode cX3_readNumber 164 = .ok (.ireturn, 1) := by decide +kernel
theorem dX4_init_0 : decode cX4_init 0 = .ok (.aload_n 0, 1) := by decide +kernel
theorem dX4_init_1 : decode cX4_init 1 = .ok (.invokespecial 3, 3) := by decide +kernel
theorem dX4_init_4 : decode cX4_init 4 = .ok (.aload_n 0, 1) := by decide +kernel
theorem dX4_init_5 : decode cX4_init 5 = .ok (.sipush 200, 3) := by decide +kernel
theorem dX4_init_8 : decode cX4_init 8 = .ok (.newarray .char, 2) := by decide +kernel
theorem dX4_init_10 : decode cX4_init 10 = .ok (.putfield 9, 3) := by decide +kernel
theorem dX4_init_13 : decode cX4_init 13 = .ok (.aload_n 0, 1) := by decide +kernel
theorem dX4_init_14 : decode cX4_init 14 = .ok (.iconst 0, 1) := by decide +kernel
theorem dX4_init_15 : decode cX4_init 15 = .ok (.putfield 15, 3) := by decide +kernel
theorem dX4_init_18 : decode cX4_init 18 = .ok (.return_, 1) := by decide +kernel
theorem dX4_length_0 : decode cX4_length 0 = .ok (.aload_n 0, 1) := by decide +kernel
theorem dX4_length_1 : decode cX4_length 1 = .ok (.getfield 15, 3) := by decide +kernel
theorem dX4_length_4 : decode cX4_length 4 = .ok (.ireturn, 1) := by decide +kernel
theorem dX4_empty_0 : decode cX4_empty 0 = .ok (.aload_n 0, 1) := by decide +kernel
theorem dX4_empty_1 : decode cX4_empty 1 = .ok (.iconst 0, 1) := by decide +kernel
theorem dX4_empty_2 : decode cX4_empty 2 = .ok (.putfield 15, 3) := by decide +kernel
theorem dX4_empty_5 : decode cX4_empty 5 = .ok (.return_, 1) := by decide +kernel
theorem dX4_byteAt_0 : decode cX4_byteAt 0 = .ok (.iload_n 1, 1) := by decide +kernel
theorem dX4_byteAt_1 : decode cX4_byteAt 1 = .ok (.ifCond .lt 20, 3) := by decide +kernel
theorem dX4_byteAt_4 : decode cX4_byteAt 4 = .ok (.iload_n 1, 1) := by decide +kernel
theorem dX4_byteAt_5 : decode cX4_byteAt 5 = .ok (.aload_n 0, 1) := by decide +kernel
theorem dX4_byteAt_6 : decode cX4_byteAt 6 = .ok (.getfield 15, 3) := by decide +kernel
theorem dX4_byteAt_9 : decode cX4_byteAt 9 = .ok (.if_icmp .ge 12, 3) := by decide +kernel
theorem dX4_byteAt_12 : decode cX4_byteAt 12 = .ok (.aload_n 0, 1) := by decide +kernel
theorem dX4_byteAt_13 : decode cX4_byteAt 13 = .ok (.getfield 9, 3) := by decide +kernel
theorem dX4_byteAt_16 : decode cX4_byteAt 16 = .ok (.iload_n 1, 1) := by decide +kernel
theorem dX4_byteAt_17 : decode cX4_byteAt 17 = .ok (.caload, 1) := by decide +kernel
theorem dX4_byteAt_18 : decode cX4_byteAt 18 = .ok (.goto 4, 3) := by decide +kernel
theorem dX4_byteAt_21 : decode cX4_byteAt 21 = .ok (.iconst 0, 1) := by decide +kernel
theorem dX4_byteAt_22 : decode cX4_byteAt 22 = .ok (.ireturn, 1) := by decide +kernel
set_option maxRecDepth 20000 in
theorem ggX4_append_X4_appendByte : GoodIn wsX4_append wsX4_appendByte := goodIn_r _ [7, 2, 8, 9, 10] (by decide +kernel) (by decide +kernel)
set_option maxRecDepth 20000 in
theorem gX4_append_X4_appendByte : GoodIn wsX4_append (wsV RX4 21 RX4 yX4_appendByte wsX4_appendByte) := goodIn_app (goodIn_of _ (by decide +kernel)) ggX4_append_X4_appendByte
theorem dX4_append_0 : decode cX4_append 0 = .ok (.iconst 0, 1) := by decide +kernel
theorem dX4_append_1 : decode cX4_append 1 = .ok (.istore_n 3, 1) := by decide +kernel
theorem dX4_append_2 : decode cX4_append 2 = .ok (.bipush 56, 2) := by decide +kernel
theorem dX4_append_4 : decode cX4_append 4 = .ok (.istore 4, 2) := by decide +kernel
theorem dX4_append_6 : decode cX4_append 6 = .ok (.iload 4, 2) := by decide +kernel
theorem dX4_append_8 : decode cX4_append 8 = .ok (.ifCond .lt 25, 3) := by decide +kernel
theorem dX4_append_11 : decode cX4_append 11 = .ok (.lload_n 1, 1) := by decide +kernel
theorem dX4_append_12 : decode cX4_append 12 = .ok (.iload 4, 2) := by decide +kernel
theorem dX4_append_14 : decode cX4_append 14 = .ok (.lushr, 1) := by decide +kernel
theorem dX4_append_15 : decode cX4_append 15 = .ok (.ldc2_w 19, 3) := by decide +kernel
theorem dX4_append_18 : decode cX4_append 18 = .ok (.land, 1) := by decide +kernel
theorem dX4_append_19 : decode cX4_append 19 = .ok (.lconst 0, 1) := by decide +kernel
theorem dX4_append_20 : decode cX4_append 20 = .ok (.lcmp, 1) := by decide +kernel
theorem dX4_append_21 : decode cX4_append 21 = .ok (.ifCond .eq 6, 3) := by decide +kernel
theorem dX4_append_24 : decode cX4_append 24 = .ok (.iinc 3 1, 3) := by decide +kernel
theorem dX4_append_27 : decode cX4_append 27 = .ok (.iinc 4 (-8), 3) := by decide +kernel
theorem dX4_append_30 : decode cX4_append 30 = .ok (.goto (-24), 3) := by decide +kernel
theorem dX4_append_33 : decode cX4_append 33 = .ok (.aload_n 0, 1) := by decide +kernel
theorem dX4_append_34 : decode cX4_append 34 = .ok (.getfield 15, 3) := by decide +kernel
theorem dX4_append_37 : decode cX4_append 37 = .ok (.iload_n 3, 1) := by decide +kernel
theorem dX4_append_38 : decode cX4_append 38 = .ok (.iadd, 1) := by decide +kernel
theorem dX4_append_39 : decode cX4_append 39 = .ok (.sipush 200, 3) := by decide +kernel
theorem dX4_append_42 : decode cX4_append 42 = .ok (.if_icmp .le 5, 3) := by decide +kernel
theorem dX4_append_45 : decode cX4_append 45 = .ok (.iconst 0, 1) := by decide +kernel
theorem dX4_append_46 : decode cX4_append 46 = .ok (.ireturn, 1) := by decide +kernel
theorem dX4_append_47 : decode cX4_append 47 = .ok (.bipush 56, 2) := by decide +kernel
theorem dX4_append_49 : decode cX4_append 49 = .ok (.istore 4, 2) := by decide +kernel
theorem dX4_append_51 : decode cX4_append 51 = .ok (.iload 4, 2) := by decide +kernel
theorem dX4_append_53 : decode cX4_append 53 = .ok (.ifCond .lt 22, 3) := by decide +kernel
theorem dX4_append_56 : decode cX4_append 56 = .ok (.aload_n 0, 1) := by decide +kernel
theorem dX4_append_57 : decode cX4_append 57 = .ok (.lload_n 1, 1) := by decide +kernel
theorem dX4_append_58 : decode cX4_append 58 = .ok (.iload 4, 2) := by decide +kernel
theorem dX4_append_60 : decode cX4_append 60 = .ok (.lushr, 1) := by decide +kernel
theorem dX4_append_61 : decode cX4_append 61 = .ok (.ldc2_w 19, 3) := by decide +kernel
theorem dX4_append_64 : decode cX4_append 64 = .ok (.land, 1) := by decide +kernel
theorem dX4_append_65 : decode cX4_append 65 = .ok (.l2i, 1) := by decide +kernel
theorem dX4_append_66 : decode cX4_append 66 = .ok (.invokevirtual 21, 3) := by decide +kernel
theorem dX4_append_69 : decode cX4_append 69 = .ok (.iinc 4 (-8), 3) := by decide +kernel
theorem dX4_append_72 : decode cX4_append 72 = .ok (.goto (-21), 3) := by decide +kernel
theorem dX4_append_75 : decode cX4_append 75 = .ok (.iconst 1, 1) := by decide +kernel
theorem dX4_append_76 : decode cX4_append 76 = .ok (.ireturn, 1) := by decide +kernel
set_option maxRecDepth 20000 in
theorem ggX4_become_J0_length_8abf5 : GoodIn wsX4_become wsJ0_length_8abf5 := goodIn_r _ [6, 7, 8, 9, 10, 5, 11, 12, 13] (by decide +kernel) (by decide +kernel)
set_option maxRecDepth 20000 in
theorem gX4_become_J0_length_8abf5 : GoodIn wsX4_become (wsV RX4 25 RJ0 yJ0_length_8abf5 wsJ0_length_8abf5) := goodIn_app (goodIn_of _ (by decide +kernel)) ggX4_become_J0_length_8abf5
set_option maxRecDepth 20000 in
theorem ggX4_become_J0_charAt_5068e : GoodIn wsX4_become wsJ0_charAt_5068e := goodIn_r _ [17, 7, 18, 19, 20, 5, 21, 12, 13, 22, 23, 24, 25, 26, 27, 28, 29, 30, 31, 32, 33, 34, 35, 36, 37, 38, 39, 40, 41, 42, 43, 44, 45, 46, 47, 48, 49, 50] (by decide +kernel) (by decide +kernel)
set_option maxRecDepth 20000 in
theorem gX4_become_J0_charAt_5068e : GoodIn wsX4_become (wsV RX4 30 RJ0 yJ0_charAt_5068e wsJ0_charAt_5068e) := goodIn_app (goodIn_of _ (by decide +kernel)) ggX4_become_J0_charAt_5068e
set_option maxRecDepth 20000 in
theorem ggX4_become_X4_appendByte : GoodIn wsX4_become wsX4_appendByte := goodIn_r _ [55, 1, 56, 57, 58] (by decide +kernel) (by decide +kernel)
set_option maxRecDepth 20000 in
theorem gX4_become_X4_appendByte : GoodIn wsX4_become (wsV RX4 21 RX4 yX4_appendByte wsX4_appendByte) := goodIn_app (goodIn_of _ (by decide +kernel)) ggX4_become_X4_appendByte
theorem dX4_become_0 : decode cX4_become 0 = .ok (.aload_n 0, 1) := by decide +kernel
theorem dX4_become_1 : decode cX4_become 1 = .ok (.iconst 0, 1) := by decide +kernel
theorem dX4_become_2 : decode cX4_become 2 = .ok (.putfield 15, 3) := by decide +kernel
theorem dX4_become_5 : decode cX4_become 5 = .ok (.iconst 0, 1) := by decide +kernel
theorem dX4_become_6 : decode cX4_become 6 = .ok (.istore_n 2, 1) := by decide +kernel
theorem dX4_become_7 : decode cX4_become 7 = .ok (.iload_n 2, 1) := by decide +kernel
theorem dX4_become_8 : decode cX4_become 8 = .ok (.aload_n 1, 1) := by decide +kernel
theorem dX4_become_9 : decode cX4_become 9 = .ok (.invokevirtual 25, 3) := by decide +kernel
theorem dX4_become_12 : decode cX4_become 12 = .ok (.if_icmp .ge 18, 3) := by decide +kernel
theorem dX4_become_15 : decode cX4_become 15 = .ok (.aload_n 0, 1) := by decide +kernel
theorem dX4_become_16 : decode cX4_become 16 = .ok (.aload_n 1, 1) := by decide +kernel
theorem dX4_become_17 : decode cX4_become 17 = .ok (.iload_n 2, 1) := by decide +kernel
theorem dX4_become_18 : decode cX4_become 18 = .ok (.invokevirtual 30, 3) := by decide +kernel
theorem dX4_become_21 : decode cX4_become 21 = .ok (.invokevirtual 21, 3) := by decide +kernel
theorem dX4_become_24 : decode cX4_become 24 = .ok (.iinc 2 1, 3) := by decide +kernel
theorem dX4_become_27 : decode cX4_become 27 = .ok (.goto (-20), 3) := by decide +kernel
theorem dX4_become_30 : decode cX4_become 30 = .ok (.return_, 1) := by decide +kernel
theorem dX4_appendByte_0 : decode cX4_appendByte 0 = .ok (.iload_n 1, 1) := by decide +kernel
theorem dX4_appendByte_1 : decode cX4_appendByte 1 = .ok (.ifCond .eq 34, 3) := by decide +kernel
theorem dX4_appendByte_4 : decode cX4_appendByte 4 = .ok (.aload_n 0, 1) := by decide +kernel
theorem dX4_appendByte_5 : decode cX4_appendByte 5 = .ok (.getfield 15, 3) := by decide +kernel
theorem dX4_appendByte_8 : decode cX4_appendByte 8 = .ok (.sipush 200, 3) := by decide +kernel
theorem dX4_appendByte_11 : decode cX4_appendByte 11 = .ok (.if_icmp .ge 24, 3) := by decide +kernel
theorem dX4_appendByte_14 : decode cX4_appendByte 14 = .ok (.aload_n 0, 1) := by decide +kernel
theorem dX4_appendByte_15 : decode cX4_appendByte 15 = .ok (.getfield 9, 3) := by decide +kernel
theorem dX4_appendByte_18 : decode cX4_appendByte 18 = .ok (.aload_n 0, 1) := by decide +kernel
theorem dX4_appendByte_19 : decode cX4_appendByte 19 = .ok (.getfield 15, 3) := by decide +kernel
theorem dX4_appendByte_22 : decode cX4_appendByte 22 = .ok (.iload_n 1, 1) := by decide +kernel
theorem dX4_appendByte_23 : decode cX4_appendByte 23 = .ok (.i2c, 1) := by decide +kernel
theorem dX4_appendByte_24 : decode cX4_appendByte 24 = .ok (.castore, 1) := by decide +kernel
theorem dX4_appendByte_25 : decode cX4_appendByte 25 = .ok (.aload_n 0, 1) := by decide +kernel
theorem dX4_appendByte_26 : decode cX4_appendByte 26 = .ok (.dup, 1) := by decide +kernel
theorem dX4_appendByte_27 : decode cX4_appendByte 27 = .ok (.getfield 15, 3) := by decide +kernel
theorem dX4_appendByte_30 : decode cX4_appendByte 30 = .ok (.iconst 1, 1) := by decide +kernel
theorem dX4_appendByte_31 : decode cX4_appendByte 31 = .ok (.iadd, 1) := by decide +kernel
theorem dX4_appendByte_32 : decode cX4_appendByte 32 = .ok (.putfield 15, 3) := by decide +kernel
theorem dX4_appendByte_35 : decode cX4_appendByte 35 = .ok (.return_, 1) := by decide +kernel
theorem dX5_init_0 : decode cX5_init 0 = .ok (.aload_n 0, 1) := by decide +kernel
theorem dX5_init_1 : decode cX5_init 1 = .ok (.invokespecial 1, 3) := by decide +kernel
theorem dX5_init_4 : decode cX5_init 4 = .ok (.aload_n 0, 1) := by decide +kernel
theorem dX5_init_5 : decode cX5_init 5 = .ok (.aload_n 1, 1) := by decide +kernel
theorem dX5_init_6 : decode cX5_init 6 = .ok (.putfield 7, 3) := by decide +kernel
theorem dX5_init_9 : decode cX5_init 9 = .ok (.return_, 1) := by decide +kernel
set_option maxRecDepth 20000 in
theorem ggX5_shows_X2_holds : GoodIn wsX5_shows wsX2_holds := goodIn_r _ [6, 7, 8, 10, 11] (by decide +kernel) (by decide +kernel)
set_option maxRecDepth 20000 in
theorem gX5_shows_X2_holds : GoodIn wsX5_shows (wsV RX5 13 RX2 yX2_holds wsX2_holds) := goodIn_app (goodIn_of _ (by decide +kernel)) ggX5_shows_X2_holds
theorem dX5_shows_0 : decode cX5_shows 0 = .ok (.aload_n 0, 1) := by decide +kernel
theorem dX5_shows_1 : decode cX5_shows 1 = .ok (.getfield 7, 3) := by decide +kernel
theorem dX5_shows_4 : decode cX5_shows 4 = .ok (.iload_n 1, 1) := by decide +kernel
theorem dX5_shows_5 : decode cX5_shows 5 = .ok (.invokevirtual 13, 3) := by decide +kernel
theorem dX5_shows_8 : decode cX5_shows 8 = .ok (.ireturn, 1) := by decide +kernel
theorem dX5_put_0 : decode cX5_put 0 = .ok (.new 19, 3) := by decide +kernel
theorem dX5_put_3 : decode cX5_put 3 = .ok (.dup, 1) := by decide +kernel
theorem dX5_put_4 : decode cX5_put 4 = .ok (.ldc 21, 2) := by decide +kernel
theorem dX5_put_6 : decode cX5_put 6 = .ok (.invokespecial 23, 3) := by decide +kernel
theorem dX5_put_9 : decode cX5_put 9 = .ok (.athrow, 1) := by decide +kernel
theorem dX5_takeOut_0 : decode cX5_takeOut 0 = .ok (.new 19, 3) := by decide +kernel
theorem dX5_takeOut_3 : decode cX5_takeOut 3 = .ok (.dup, 1) := by decide +kernel
theorem dX5_takeOut_4 : decode cX5_takeOut 4 = .ok (.ldc 21, 2) := by decide +kernel
theorem dX5_takeOut_6 : decode cX5_takeOut 6 = .ok (.invokespecial 23, 3) := by decide +kernel
theorem dX5_takeOut_9 : decode cX5_takeOut 9 = .ok (.athrow, 1) := by decide +kernel
theorem dX5_combine_0 : decode cX5_combine 0 = .ok (.new 19, 3) := by decide +kernel
theorem dX5_combine_3 : decode cX5_combine 3 = .ok (.dup, 1) := by decide +kernel
theorem dX5_combine_4 : decode cX5_combine 4 = .ok (.ldc 21, 2) := by decide +kernel
theorem dX5_combine_6 : decode cX5_combine 6 = .ok (.invokespecial 23, 3) := by decide +kernel
theorem dX5_combine_9 : decode cX5_combine 9 = .ok (.athrow, 1) := by decide +kernel
theorem dX5_empty_0 : decode cX5_empty 0 = .ok (.new 19, 3) := by decide +kernel
theorem dX5_empty_3 : decode cX5_empty 3 = .ok (.dup, 1) := by decide +kernel
theorem dX5_empty_4 : decode cX5_empty 4 = .ok (.ldc 21, 2) := by decide +kernel
theorem dX5_empty_6 : decode cX5_empty 6 = .ok (.invokespecial 23, 3) := by decide +kernel
theorem dX5_empty_9 : decode cX5_empty 9 = .ok (.athrow, 1) := by decide +kernel
set_option maxRecDepth 20000 in
theorem ggX5_walk_X6_init : GoodIn wsX5_walk wsX6_init := goodIn_r _ [7, 8, 9, 10, 11, 12, 13, 14, 15, 16, 17, 18] (by decide +kernel) (by decide +kernel)
set_option maxRecDepth 20000 in
theorem gX5_walk_X6_init : GoodIn wsX5_walk (wsX6_init) := ggX5_walk_X6_init
theorem dX5_walk_0 : decode cX5_walk 0 = .ok (.new 26, 3) := by decide +kernel
theorem dX5_walk_3 : decode cX5_walk 3 = .ok (.dup, 1) := by decide +kernel
theorem dX5_walk_4 : decode cX5_walk 4 = .ok (.aload_n 0, 1) := by decide +kernel
theorem dX5_walk_5 : decode cX5_walk 5 = .ok (.getfield 7, 3) := by decide +kernel
theorem dX5_walk_8 : decode cX5_walk 8 = .ok (.iconst 0, 1) := by decide +kernel
theorem dX5_walk_9 : decode cX5_walk 9 = .ok (.invokespecial 28, 3) := by decide +kernel
theorem dX5_walk_12 : decode cX5_walk 12 = .ok (.areturn, 1) := by decide +kernel
theorem dX6_init_0 : decode cX6_init 0 = .ok (.aload_n 0, 1) := by decide +kernel
theorem dX6_init_1 : decode cX6_init 1 = .ok (.invokespecial 3, 3) := by decide +kernel
theorem dX6_init_4 : decode cX6_init 4 = .ok (.aload_n 0, 1) := by decide +kernel
theorem dX6_init_5 : decode cX6_init 5 = .ok (.aload_n 1, 1) := by decide +kernel
theorem dX6_init_6 : decode cX6_init 6 = .ok (.putfield 9, 3) := by decide +kernel
theorem dX6_init_9 : decode cX6_init 9 = .ok (.aload_n 0, 1) := by decide +kernel
theorem dX6_init_10 : decode cX6_init 10 = .ok (.iload_n 2, 1) := by decide +kernel
theorem dX6_init_11 : decode cX6_init 11 = .ok (.putfield 15, 3) := by decide +kernel
theorem dX6_init_14 : decode cX6_init 14 = .ok (.aload_n 0, 1) := by decide +kernel
theorem dX6_init_15 : decode cX6_init 15 = .ok (.iconst 0, 1) := by decide +kernel
theorem dX6_init_16 : decode cX6_init 16 = .ok (.putfield 19, 3) := by decide +kernel
theorem dX6_init_19 : decode cX6_init 19 = .ok (.aload_n 0, 1) := by decide +kernel
theorem dX6_init_20 : decode cX6_init 20 = .ok (.iconst (-1), 1) := by decide +kernel
theorem dX6_init_21 : decode cX6_init 21 = .ok (.putfield 23, 3) := by decide +kernel
theorem dX6_init_24 : decode cX6_init 24 = .ok (.return_, 1) := by decide +kernel
set_option maxRecDepth 20000 in
theorem ggX6_step_X2_holds : GoodIn wsX6_step wsX2_holds := goodIn_r _ [10, 11, 12, 17, 18] (by decide +kernel) (by decide +kernel)
set_option maxRecDepth 20000 in
theorem gX6_step_X2_holds : GoodIn wsX6_step (wsV RX6 26 RX2 yX2_holds wsX2_holds) := goodIn_app (goodIn_of _ (by decide +kernel)) ggX6_step_X2_holds
theorem dX6_step_0 : decode cX6_step 0 = .ok (.aload_n 0, 1) := by decide +kernel
theorem dX6_step_1 : decode cX6_step 1 = .ok (.getfield 19, 3) := by decide +kernel
theorem dX6_step_4 : decode cX6_step 4 = .ok (.istore_n 1, 1) := by decide +kernel
theorem dX6_step_5 : decode cX6_step 5 = .ok (.iload_n 1, 1) := by decide +kernel
theorem dX6_step_6 : decode cX6_step 6 = .ok (.bipush 102, 2) := by decide +kernel
theorem dX6_step_8 : decode cX6_step 8 = .ok (.if_icmp .ge 34, 3) := by decide +kernel
theorem dX6_step_11 : decode cX6_step 11 = .ok (.aload_n 0, 1) := by decide +kernel
theorem dX6_step_12 : decode cX6_step 12 = .ok (.getfield 9, 3) := by decide +kernel
theorem dX6_step_15 : decode cX6_step 15 = .ok (.iload_n 1, 1) := by decide +kernel
theorem dX6_step_16 : decode cX6_step 16 = .ok (.invokevirtual 26, 3) := by decide +kernel
theorem dX6_step_19 : decode cX6_step 19 = .ok (.ifCond .eq 17, 3) := by decide +kernel
theorem dX6_step_22 : decode cX6_step 22 = .ok (.aload_n 0, 1) := by decide +kernel
theorem dX6_step_23 : decode cX6_step 23 = .ok (.iload_n 1, 1) := by decide +kernel
theorem dX6_step_24 : decode cX6_step 24 = .ok (.putfield 23, 3) := by decide +kernel
theorem dX6_step_27 : decode cX6_step 27 = .ok (.aload_n 0, 1) := by decide +kernel
theorem dX6_step_28 : decode cX6_step 28 = .ok (.iload_n 1, 1) := by decide +kernel
theorem dX6_step_29 : decode cX6_step 29 = .ok (.iconst 1, 1) := by decide +kernel
theorem dX6_step_30 : decode cX6_step 30 = .ok (.iadd, 1) := by decide +kernel
theorem dX6_step_31 : decode cX6_step 31 = .ok (.putfield 19, 3) := by decide +kernel
theorem dX6_step_34 : decode cX6_step 34 = .ok (.iload_n 1, 1) := by decide +kernel
theorem dX6_step_35 : decode cX6_step 35 = .ok (.ireturn, 1) := by decide +kernel
theorem dX6_step_36 : decode cX6_step 36 = .ok (.iinc 1 1, 3) := by decide +kernel
theorem dX6_step_39 : decode cX6_step 39 = .ok (.goto (-34), 3) := by decide +kernel
theorem dX6_step_42 : decode cX6_step 42 = .ok (.new 32, 3) := by decide +kernel
theorem dX6_step_45 : decode cX6_step 45 = .ok (.dup, 1) := by decide +kernel
theorem dX6_step_46 : decode cX6_step 46 = .ok (.ldc 34, 2) := by decide +kernel
theorem dX6_step_48 : decode cX6_step 48 = .ok (.invokespecial 36, 3) := by decide +kernel
theorem dX6_step_51 : decode cX6_step 51 = .ok (.athrow, 1) := by decide +kernel
set_option maxRecDepth 20000 in
theorem ggX6_takeOutLast_X2_takeOut : GoodIn wsX6_takeOutLast wsX2_takeOut := goodIn_r _ [12, 13, 14, 15, 11, 16, 17, 18, 19, 20, 21, 22, 27, 28] (by decide +kernel) (by decide +kernel)
set_option maxRecDepth 20000 in
theorem gX6_takeOutLast_X2_takeOut : GoodIn wsX6_takeOutLast (wsV RX6 49 RX2 yX2_takeOut wsX2_takeOut) := goodIn_app (goodIn_of _ (by decide +kernel)) ggX6_takeOutLast_X2_takeOut
theorem dX6_takeOutLast_0 : decode cX6_takeOutLast 0 = .ok (.aload_n 0, 1) := by decide +kernel
theorem dX6_takeOutLast_1 : decode cX6_takeOutLast 1 = .ok (.getfield 15, 3) := by decide +kernel
theorem dX6_takeOutLast_4 : decode cX6_takeOutLast 4 = .ok (.ifCond .ne 13, 3) := by decide +kernel
theorem dX6_takeOutLast_7 : decode cX6_takeOutLast 7 = .ok (.new 39, 3) := by decide +kernel
theorem dX6_takeOutLast_10 : decode cX6_takeOutLast 10 = .ok (.dup, 1) := by decide +kernel
theorem dX6_takeOutLast_11 : decode cX6_takeOutLast 11 = .ok (.ldc 41, 2) := by decide +kernel
theorem dX6_takeOutLast_13 : decode cX6_takeOutLast 13 = .ok (.invokespecial 43, 3) := by decide +kernel
theorem dX6_takeOutLast_16 : decode cX6_takeOutLast 16 = .ok (.athrow, 1) := by decide +kernel
theorem dX6_takeOutLast_17 : decode cX6_takeOutLast 17 = .ok (.aload_n 0, 1) := by decide +kernel
theorem dX6_takeOutLast_18 : decode cX6_takeOutLast 18 = .ok (.getfield 23, 3) := by decide +kernel
theorem dX6_takeOutLast_21 : decode cX6_takeOutLast 21 = .ok (.iconst (-1), 1) := by decide +kernel
theorem dX6_takeOutLast_22 : decode cX6_takeOutLast 22 = .ok (.if_icmp .ne 13, 3) := by decide +kernel
theorem dX6_takeOutLast_25 : decode cX6_takeOutLast 25 = .ok (.new 44, 3) := by decide +kernel
theorem dX6_takeOutLast_28 : decode cX6_takeOutLast 28 = .ok (.dup, 1) := by decide +kernel
theorem dX6_takeOutLast_29 : decode cX6_takeOutLast 29 = .ok (.ldc 46, 2) := by decide +kernel
theorem dX6_takeOutLast_31 : decode cX6_takeOutLast 31 = .ok (.invokespecial 48, 3) := by decide +kernel
theorem dX6_takeOutLast_34 : decode cX6_takeOutLast 34 = .ok (.athrow, 1) := by decide +kernel
theorem dX6_takeOutLast_35 : decode cX6_takeOutLast 35 = .ok (.aload_n 0, 1) := by decide +kernel
theorem dX6_takeOutLast_36 : decode cX6_takeOutLast 36 = .ok (.getfield 9, 3) := by decide +kernel
theorem dX6_takeOutLast_39 : decode cX6_takeOutLast 39 = .ok (.aload_n 0, 1) := by decide +kernel
theorem dX6_takeOutLast_40 : decode cX6_takeOutLast 40 = .ok (.getfield 23, 3) := by decide +kernel
theorem dX6_takeOutLast_43 : decode cX6_takeOutLast 43 = .ok (.invokevirtual 49, 3) := by decide +kernel
theorem dX6_takeOutLast_46 : decode cX6_takeOutLast 46 = .ok (.pop, 1) := by decide +kernel
theorem dX6_takeOutLast_47 : decode cX6_takeOutLast 47 = .ok (.aload_n 0, 1) := by decide +kernel
theorem dX6_takeOutLast_48 : decode cX6_takeOutLast 48 = .ok (.iconst (-1), 1) := by decide +kernel
theorem dX6_takeOutLast_49 : decode cX6_takeOutLast 49 = .ok (.putfield 23, 3) := by decide +kernel
theorem dX6_takeOutLast_52 : decode cX6_takeOutLast 52 = .ok (.return_, 1) := by decide +kernel
