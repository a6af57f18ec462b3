set_option maxRecDepth 20000 in
theorem ggX0_init_X2_init : GoodIn wsX0_init wsX2_init := goodIn_r _ [12, 13, 2, 3, 14, 15, 19, 20] (by decide +kernel) (by decide +kernel)
set_option maxRecDepth 20000 in
theorem gX0_init_X2_init : GoodIn wsX0_init (wsX2_init) := ggX0_init_X2_init
theorem dX0_init_0 : decode cX0_init 0 = .ok (.aload_n 0, 1) := by decide +kernel
theorem dX0_init_1 : decode cX0_init 1 = .ok (.invokespecial 3, 3) := by decide +kernel
theorem dX0_init_4 : decode cX0_init 4 = .ok (.aload_n 0, 1) := by decide +kernel
theorem dX0_init_5 : decode cX0_init 5 = .ok (.bipush 7, 2) := by decide +kernel
theorem dX0_init_7 : decode cX0_init 7 = .ok (.anewarray 9, 3) := by decide +kernel
theorem dX0_init_10 : decode cX0_init 10 = .ok (.putfield 11, 3) := by decide +kernel
theorem dX0_init_13 : decode cX0_init 13 = .ok (.iconst 0, 1) := by decide +kernel
theorem dX0_init_14 : decode cX0_init 14 = .ok (.istore_n 1, 1) := by decide +kernel
theorem dX0_init_15 : decode cX0_init 15 = .ok (.iload_n 1, 1) := by decide +kernel
theorem dX0_init_16 : decode cX0_init 16 = .ok (.bipush 7, 2) := by decide +kernel
theorem dX0_init_18 : decode cX0_init 18 = .ok (.if_icmp .ge 22, 3) := by decide +kernel
theorem dX0_init_21 : decode cX0_init 21 = .ok (.aload_n 0, 1) := by decide +kernel
theorem dX0_init_22 : decode cX0_init 22 = .ok (.getfield 11, 3) := by decide +kernel
theorem dX0_init_25 : decode cX0_init 25 = .ok (.iload_n 1, 1) := by decide +kernel
theorem dX0_init_26 : decode cX0_init 26 = .ok (.new 9, 3) := by decide +kernel
theorem dX0_init_29 : decode cX0_init 29 = .ok (.dup, 1) := by decide +kernel
theorem dX0_init_30 : decode cX0_init 30 = .ok (.invokespecial 17, 3) := by decide +kernel
theorem dX0_init_33 : decode cX0_init 33 = .ok (.aastore, 1) := by decide +kernel
theorem dX0_init_34 : decode cX0_init 34 = .ok (.iinc 1 1, 3) := by decide +kernel
theorem dX0_init_37 : decode cX0_init 37 = .ok (.goto (-22), 3) := by decide +kernel
theorem dX0_init_40 : decode cX0_init 40 = .ok (.aload_n 0, 1) := by decide +kernel
theorem dX0_init_41 : decode cX0_init 41 = .ok (.new 9, 3) := by decide +kernel
theorem dX0_init_44 : decode cX0_init 44 = .ok (.dup, 1) := by decide +kernel
theorem dX0_init_45 : decode cX0_init 45 = .ok (.invokespecial 17, 3) := by decide +kernel
theorem dX0_init_48 : decode cX0_init 48 = .ok (.putfield 18, 3) := by decide +kernel
theorem dX0_init_51 : decode cX0_init 51 = .ok (.aload_n 0, 1) := by decide +kernel
theorem dX0_init_52 : decode cX0_init 52 = .ok (.iconst 0, 1) := by decide +kernel
theorem dX0_init_53 : decode cX0_init 53 = .ok (.putfield 22, 3) := by decide +kernel
theorem dX0_init_56 : decode cX0_init 56 = .ok (.return_, 1) := by decide +kernel
theorem dX0_count_0 : decode cX0_count 0 = .ok (.aload_n 0, 1) := by decide +kernel
theorem dX0_count_1 : decode cX0_count 1 = .ok (.getfield 22, 3) := by decide +kernel
theorem dX0_count_4 : decode cX0_count 4 = .ok (.ireturn, 1) := by decide +kernel
theorem dX0_empty_0 : decode cX0_empty 0 = .ok (.aload_n 0, 1) := by decide +kernel
theorem dX0_empty_1 : decode cX0_empty 1 = .ok (.iconst 0, 1) := by decide +kernel
theorem dX0_empty_2 : decode cX0_empty 2 = .ok (.putfield 22, 3) := by decide +kernel
theorem dX0_empty_5 : decode cX0_empty 5 = .ok (.return_, 1) := by decide +kernel
set_option maxRecDepth 20000 in
theorem ggX0_become_X2_become : GoodIn wsX0_become wsX2_become := goodIn_r _ [7, 8, 9, 13, 14] (by decide +kernel) (by decide +kernel)
set_option maxRecDepth 20000 in
theorem gX0_become_X2_become : GoodIn wsX0_become (wsV RX0 26 RX2 yX2_become wsX2_become) := goodIn_app (goodIn_of _ (by decide +kernel)) ggX0_become_X2_become
theorem dX0_become_0 : decode cX0_become 0 = .ok (.aload_n 0, 1) := by decide +kernel
theorem dX0_become_1 : decode cX0_become 1 = .ok (.aload_n 1, 1) := by decide +kernel
theorem dX0_become_2 : decode cX0_become 2 = .ok (.getfield 22, 3) := by decide +kernel
theorem dX0_become_5 : decode cX0_become 5 = .ok (.putfield 22, 3) := by decide +kernel
theorem dX0_become_8 : decode cX0_become 8 = .ok (.iconst 0, 1) := by decide +kernel
theorem dX0_become_9 : decode cX0_become 9 = .ok (.istore_n 2, 1) := by decide +kernel
theorem dX0_become_10 : decode cX0_become 10 = .ok (.iload_n 2, 1) := by decide +kernel
theorem dX0_become_11 : decode cX0_become 11 = .ok (.aload_n 0, 1) := by decide +kernel
theorem dX0_become_12 : decode cX0_become 12 = .ok (.getfield 22, 3) := by decide +kernel
theorem dX0_become_15 : decode cX0_become 15 = .ok (.if_icmp .ge 24, 3) := by decide +kernel
theorem dX0_become_18 : decode cX0_become 18 = .ok (.aload_n 0, 1) := by decide +kernel
theorem dX0_become_19 : decode cX0_become 19 = .ok (.getfield 11, 3) := by decide +kernel
theorem dX0_become_22 : decode cX0_become 22 = .ok (.iload_n 2, 1) := by decide +kernel
theorem dX0_become_23 : decode cX0_become 23 = .ok (.aaload, 1) := by decide +kernel
theorem dX0_become_24 : decode cX0_become 24 = .ok (.aload_n 1, 1) := by decide +kernel
theorem dX0_become_25 : decode cX0_become 25 = .ok (.getfield 11, 3) := by decide +kernel
theorem dX0_become_28 : decode cX0_become 28 = .ok (.iload_n 2, 1) := by decide +kernel
theorem dX0_become_29 : decode cX0_become 29 = .ok (.aaload, 1) := by decide +kernel
theorem dX0_become_30 : decode cX0_become 30 = .ok (.invokevirtual 26, 3) := by decide +kernel
theorem dX0_become_33 : decode cX0_become 33 = .ok (.iinc 2 1, 3) := by decide +kernel
theorem dX0_become_36 : decode cX0_become 36 = .ok (.goto (-26), 3) := by decide +kernel
theorem dX0_become_39 : decode cX0_become 39 = .ok (.return_, 1) := by decide +kernel
set_option maxRecDepth 20000 in
theorem ggX0_total_X2_total : GoodIn wsX0_total wsX2_total := goodIn_r _ [7, 8, 9, 10, 6, 11, 12, 13, 17, 18] (by decide +kernel) (by decide +kernel)
set_option maxRecDepth 20000 in
theorem gX0_total_X2_total : GoodIn wsX0_total (wsV RX0 30 RX2 yX2_total wsX2_total) := goodIn_app (goodIn_of _ (by decide +kernel)) ggX0_total_X2_total
theorem dX0_total_0 : decode cX0_total 0 = .ok (.iconst 0, 1) := by decide +kernel
theorem dX0_total_1 : decode cX0_total 1 = .ok (.istore_n 1, 1) := by decide +kernel
theorem dX0_total_2 : decode cX0_total 2 = .ok (.iconst 0, 1) := by decide +kernel
theorem dX0_total_3 : decode cX0_total 3 = .ok (.istore_n 2, 1) := by decide +kernel
theorem dX0_total_4 : decode cX0_total 4 = .ok (.iload_n 2, 1) := by decide +kernel
theorem dX0_total_5 : decode cX0_total 5 = .ok (.aload_n 0, 1) := by decide +kernel
theorem dX0_total_6 : decode cX0_total 6 = .ok (.getfield 22, 3) := by decide +kernel
theorem dX0_total_9 : decode cX0_total 9 = .ok (.if_icmp .ge 21, 3) := by decide +kernel
theorem dX0_total_12 : decode cX0_total 12 = .ok (.iload_n 1, 1) := by decide +kernel
theorem dX0_total_13 : decode cX0_total 13 = .ok (.aload_n 0, 1) := by decide +kernel
theorem dX0_total_14 : decode cX0_total 14 = .ok (.getfield 11, 3) := by decide +kernel
theorem dX0_total_17 : decode cX0_total 17 = .ok (.iload_n 2, 1) := by decide +kernel
theorem dX0_total_18 : decode cX0_total 18 = .ok (.aaload, 1) := by decide +kernel
theorem dX0_total_19 : decode cX0_total 19 = .ok (.invokevirtual 30, 3) := by decide +kernel
theorem dX0_total_22 : decode cX0_total 22 = .ok (.iadd, 1) := by decide +kernel
theorem dX0_total_23 : decode cX0_total 23 = .ok (.istore_n 1, 1) := by decide +kernel
theorem dX0_total_24 : decode cX0_total 24 = .ok (.iinc 2 1, 3) := by decide +kernel
theorem dX0_total_27 : decode cX0_total 27 = .ok (.goto (-23), 3) := by decide +kernel
theorem dX0_total_30 : decode cX0_total 30 = .ok (.iload_n 1, 1) := by decide +kernel
theorem dX0_total_31 : decode cX0_total 31 = .ok (.ireturn, 1) := by decide +kernel
theorem dX0_hasPlace_0 : decode cX0_hasPlace 0 = .ok (.iload_n 1, 1) := by decide +kernel
theorem dX0_hasPlace_1 : decode cX0_hasPlace 1 = .ok (.ifCond .lt 15, 3) := by decide +kernel
theorem dX0_hasPlace_4 : decode cX0_hasPlace 4 = .ok (.iload_n 1, 1) := by decide +kernel
theorem dX0_hasPlace_5 : decode cX0_hasPlace 5 = .ok (.aload_n 0, 1) := by decide +kernel
theorem dX0_hasPlace_6 : decode cX0_hasPlace 6 = .ok (.getfield 22, 3) := by decide +kernel
theorem dX0_hasPlace_9 : decode cX0_hasPlace 9 = .ok (.if_icmp .ge 7, 3) := by decide +kernel
theorem dX0_hasPlace_12 : decode cX0_hasPlace 12 = .ok (.iconst 1, 1) := by decide +kernel
theorem dX0_hasPlace_13 : decode cX0_hasPlace 13 = .ok (.goto 4, 3) := by decide +kernel
theorem dX0_hasPlace_16 : decode cX0_hasPlace 16 = .ok (.iconst 0, 1) := by decide +kernel
theorem dX0_hasPlace_17 : decode cX0_hasPlace 17 = .ok (.ireturn, 1) := by decide +kernel
set_option maxRecDepth 20000 in
theorem ggX0_tell_X0_hasPlace : GoodIn wsX0_tell wsX0_hasPlace := goodIn_r _ [6, 7, 15, 16, 17] (by decide +kernel) (by decide +kernel)
set_option maxRecDepth 20000 in
theorem gX0_tell_X0_hasPlace : GoodIn wsX0_tell (wsV RX0 34 RX0 yX0_hasPlace wsX0_hasPlace) := goodIn_app (goodIn_of _ (by decide +kernel)) ggX0_tell_X0_hasPlace
set_option maxRecDepth 20000 in
theorem ggX0_tell_X2_become : GoodIn wsX0_tell wsX2_become := goodIn_r _ [12, 13, 14, 18, 19] (by decide +kernel) (by decide +kernel)
set_option maxRecDepth 20000 in
theorem gX0_tell_X2_become : GoodIn wsX0_tell (wsV RX0 26 RX2 yX2_become wsX2_become) := goodIn_app (goodIn_of _ (by decide +kernel)) ggX0_tell_X2_become
theorem dX0_tell_0 : decode cX0_tell 0 = .ok (.aload_n 0, 1) := by decide +kernel
theorem dX0_tell_1 : decode cX0_tell 1 = .ok (.iload_n 1, 1) := by decide +kernel
theorem dX0_tell_2 : decode cX0_tell 2 = .ok (.invokevirtual 34, 3) := by decide +kernel
theorem dX0_tell_5 : decode cX0_tell 5 = .ok (.ifCond .eq 13, 3) := by decide +kernel
theorem dX0_tell_8 : decode cX0_tell 8 = .ok (.aload_n 2, 1) := by decide +kernel
theorem dX0_tell_9 : decode cX0_tell 9 = .ok (.aload_n 0, 1) := by decide +kernel
theorem dX0_tell_10 : decode cX0_tell 10 = .ok (.getfield 11, 3) := by decide +kernel
theorem dX0_tell_13 : decode cX0_tell 13 = .ok (.iload_n 1, 1) := by decide +kernel
theorem dX0_tell_14 : decode cX0_tell 14 = .ok (.aaload, 1) := by decide +kernel
theorem dX0_tell_15 : decode cX0_tell 15 = .ok (.invokevirtual 26, 3) := by decide +kernel
theorem dX0_tell_18 : decode cX0_tell 18 = .ok (.return_, 1) := by decide +kernel
set_option maxRecDepth 20000 in
theorem ggX0_find_X2_sameAs : GoodIn wsX0_find wsX2_sameAs := goodIn_r _ [7, 8, 9, 13, 14] (by decide +kernel) (by decide +kernel)
set_option maxRecDepth 20000 in
theorem gX0_find_X2_sameAs : GoodIn wsX0_find (wsV RX0 38 RX2 yX2_sameAs wsX2_sameAs) := goodIn_app (goodIn_of _ (by decide +kernel)) ggX0_find_X2_sameAs
theorem dX0_find_0 : decode cX0_find 0 = .ok (.iconst 0, 1) := by decide +kernel
theorem dX0_find_1 : decode cX0_find 1 = .ok (.istore_n 2, 1) := by decide +kernel
theorem dX0_find_2 : decode cX0_find 2 = .ok (.iload_n 2, 1) := by decide +kernel
theorem dX0_find_3 : decode cX0_find 3 = .ok (.aload_n 0, 1) := by decide +kernel
theorem dX0_find_4 : decode cX0_find 4 = .ok (.getfield 22, 3) := by decide +kernel
theorem dX0_find_7 : decode cX0_find 7 = .ok (.if_icmp .ge 24, 3) := by decide +kernel
theorem dX0_find_10 : decode cX0_find 10 = .ok (.aload_n 0, 1) := by decide +kernel
theorem dX0_find_11 : decode cX0_find 11 = .ok (.getfield 11, 3) := by decide +kernel
theorem dX0_find_14 : decode cX0_find 14 = .ok (.iload_n 2, 1) := by decide +kernel
theorem dX0_find_15 : decode cX0_find 15 = .ok (.aaload, 1) := by decide +kernel
theorem dX0_find_16 : decode cX0_find 16 = .ok (.aload_n 1, 1) := by decide +kernel
theorem dX0_find_17 : decode cX0_find 17 = .ok (.invokevirtual 38, 3) := by decide +kernel
theorem dX0_find_20 : decode cX0_find 20 = .ok (.ifCond .eq 5, 3) := by decide +kernel
theorem dX0_find_23 : decode cX0_find 23 = .ok (.iload_n 2, 1) := by decide +kernel
theorem dX0_find_24 : decode cX0_find 24 = .ok (.ireturn, 1) := by decide +kernel
theorem dX0_find_25 : decode cX0_find 25 = .ok (.iinc 2 1, 3) := by decide +kernel
theorem dX0_find_28 : decode cX0_find 28 = .ok (.goto (-26), 3) := by decide +kernel
theorem dX0_find_31 : decode cX0_find 31 = .ok (.iconst (-1), 1) := by decide +kernel
theorem dX0_find_32 : decode cX0_find 32 = .ok (.ireturn, 1) := by decide +kernel
set_option maxRecDepth 20000 in
theorem ggX0_enter_X0_find : GoodIn wsX0_enter wsX0_find := goodIn_r _ [7, 1, 2, 8, 9, 10, 11, 12, 13, 14, 23, 24, 25, 26, 27] (by decide +kernel) (by decide +kernel)
set_option maxRecDepth 20000 in
theorem gX0_enter_X0_find : GoodIn wsX0_enter (wsV RX0 42 RX0 yX0_find wsX0_find) := goodIn_app (goodIn_of _ (by decide +kernel)) ggX0_enter_X0_find
set_option maxRecDepth 20000 in
theorem ggX0_enter_X2_comesBefore : GoodIn wsX0_enter wsX2_comesBefore := goodIn_r _ [18, 13, 14, 26, 27] (by decide +kernel) (by decide +kernel)
set_option maxRecDepth 20000 in
theorem gX0_enter_X2_comesBefore : GoodIn wsX0_enter (wsV RX0 46 RX2 yX2_comesBefore wsX2_comesBefore) := goodIn_app (goodIn_of _ (by decide +kernel)) ggX0_enter_X2_comesBefore
set_option maxRecDepth 20000 in
theorem ggX0_enter_X2_become : GoodIn wsX0_enter wsX2_become := goodIn_r _ [22, 13, 14, 26, 27] (by decide +kernel) (by decide +kernel)
set_option maxRecDepth 20000 in
theorem gX0_enter_X2_become : GoodIn wsX0_enter (wsV RX0 26 RX2 yX2_become wsX2_become) := goodIn_app (goodIn_of _ (by decide +kernel)) ggX0_enter_X2_become
theorem dX0_enter_0 : decode cX0_enter 0 = .ok (.aload_n 0, 1) := by decide +kernel
theorem dX0_enter_1 : decode cX0_enter 1 = .ok (.aload_n 1, 1) := by decide +kernel
theorem dX0_enter_2 : decode cX0_enter 2 = .ok (.invokevirtual 42, 3) := by decide +kernel
theorem dX0_enter_5 : decode cX0_enter 5 = .ok (.iconst (-1), 1) := by decide +kernel
theorem dX0_enter_6 : decode cX0_enter 6 = .ok (.if_icmp .eq 5, 3) := by decide +kernel
theorem dX0_enter_9 : decode cX0_enter 9 = .ok (.iconst 1, 1) := by decide +kernel
theorem dX0_enter_10 : decode cX0_enter 10 = .ok (.ireturn, 1) := by decide +kernel
theorem dX0_enter_11 : decode cX0_enter 11 = .ok (.aload_n 0, 1) := by decide +kernel
theorem dX0_enter_12 : decode cX0_enter 12 = .ok (.getfield 22, 3) := by decide +kernel
theorem dX0_enter_15 : decode cX0_enter 15 = .ok (.bipush 7, 2) := by decide +kernel
theorem dX0_enter_17 : decode cX0_enter 17 = .ok (.if_icmp .lt 5, 3) := by decide +kernel
theorem dX0_enter_20 : decode cX0_enter 20 = .ok (.iconst 0, 1) := by decide +kernel
theorem dX0_enter_21 : decode cX0_enter 21 = .ok (.ireturn, 1) := by decide +kernel
theorem dX0_enter_22 : decode cX0_enter 22 = .ok (.aload_n 0, 1) := by decide +kernel
theorem dX0_enter_23 : decode cX0_enter 23 = .ok (.getfield 22, 3) := by decide +kernel
theorem dX0_enter_26 : decode cX0_enter 26 = .ok (.istore_n 2, 1) := by decide +kernel
theorem dX0_enter_27 : decode cX0_enter 27 = .ok (.iload_n 2, 1) := by decide +kernel
theorem dX0_enter_28 : decode cX0_enter 28 = .ok (.ifCond .le 41, 3) := by decide +kernel
theorem dX0_enter_31 : decode cX0_enter 31 = .ok (.aload_n 1, 1) := by decide +kernel
theorem dX0_enter_32 : decode cX0_enter 32 = .ok (.aload_n 0, 1) := by decide +kernel
theorem dX0_enter_33 : decode cX0_enter 33 = .ok (.getfield 11, 3) := by decide +kernel
theorem dX0_enter_36 : decode cX0_enter 36 = .ok (.iload_n 2, 1) := by decide +kernel
theorem dX0_enter_37 : decode cX0_enter 37 = .ok (.iconst 1, 1) := by decide +kernel
theorem dX0_enter_38 : decode cX0_enter 38 = .ok (.isub, 1) := by decide +kernel
theorem dX0_enter_39 : decode cX0_enter 39 = .ok (.aaload, 1) := by decide +kernel
theorem dX0_enter_40 : decode cX0_enter 40 = .ok (.invokevirtual 46, 3) := by decide +kernel
theorem dX0_enter_43 : decode cX0_enter 43 = .ok (.ifCond .eq 26, 3) := by decide +kernel
theorem dX0_enter_46 : decode cX0_enter 46 = .ok (.aload_n 0, 1) := by decide +kernel
theorem dX0_enter_47 : decode cX0_enter 47 = .ok (.getfield 11, 3) := by decide +kernel
theorem dX0_enter_50 : decode cX0_enter 50 = .ok (.iload_n 2, 1) := by decide +kernel
theorem dX0_enter_51 : decode cX0_enter 51 = .ok (.aaload, 1) := by decide +kernel
theorem dX0_enter_52 : decode cX0_enter 52 = .ok (.aload_n 0, 1) := by decide +kernel
theorem dX0_enter_53 : decode cX0_enter 53 = .ok (.getfield 11, 3) := by decide +kernel
theorem dX0_enter_56 : decode cX0_enter 56 = .ok (.iload_n 2, 1) := by decide +kernel
theorem dX0_enter_57 : decode cX0_enter 57 = .ok (.iconst 1, 1) := by decide +kernel
theorem dX0_enter_58 : decode cX0_enter 58 = .ok (.isub, 1) := by decide +kernel
theorem dX0_enter_59 : decode cX0_enter 59 = .ok (.aaload, 1) := by decide +kernel
theorem dX0_enter_60 : decode cX0_enter 60 = .ok (.invokevirtual 26, 3) := by decide +kernel
theorem dX0_enter_63 : decode cX0_enter 63 = .ok (.iinc 2 (-1), 3) := by decide +kernel
theorem dX0_enter_66 : decode cX0_enter 66 = .ok (.goto (-39), 3) := by decide +kernel
theorem dX0_enter_69 : decode cX0_enter 69 = .ok (.aload_n 0, 1) := by decide +kernel
theorem dX0_enter_70 : decode cX0_enter 70 = .ok (.getfield 11, 3) := by decide +kernel
theorem dX0_enter_73 : decode cX0_enter 73 = .ok (.iload_n 2, 1) := by decide +kernel
theorem dX0_enter_74 : decode cX0_enter 74 = .ok (.aaload, 1) := by decide +kernel
theorem dX0_enter_75 : decode cX0_enter 75 = .ok (.aload_n 1, 1) := by decide +kernel
theorem dX0_enter_76 : decode cX0_enter 76 = .ok (.invokevirtual 26, 3) := by decide +kernel
theorem dX0_enter_79 : decode cX0_enter 79 = .ok (.aload_n 0, 1) := by decide +kernel
theorem dX0_enter_80 : decode cX0_enter 80 = .ok (.dup, 1) := by decide +kernel
theorem dX0_enter_81 : decode cX0_enter 81 = .ok (.getfield 22, 3) := by decide +kernel
theorem dX0_enter_84 : decode cX0_enter 84 = .ok (.iconst 1, 1) := by decide +kernel
theorem dX0_enter_85 : decode cX0_enter 85 = .ok (.iadd, 1) := by decide +kernel
theorem dX0_enter_86 : decode cX0_enter 86 = .ok (.putfield 22, 3) := by decide +kernel
theorem dX0_enter_89 : decode cX0_enter 89 = .ok (.iconst 1, 1) := by decide +kernel
theorem dX0_enter_90 : decode cX0_enter 90 = .ok (.ireturn, 1) := by decide +kernel
set_option maxRecDepth 20000 in
theorem ggX0_leave_X0_find : GoodIn wsX0_leave wsX0_find := goodIn_r _ [7, 1, 2, 8, 9, 10, 11, 12, 13, 14, 19, 20, 21, 22, 23] (by decide +kernel) (by decide +kernel)
set_option maxRecDepth 20000 in
theorem gX0_leave_X0_find : GoodIn wsX0_leave (wsV RX0 42 RX0 yX0_find wsX0_find) := goodIn_app (goodIn_of _ (by decide +kernel)) ggX0_leave_X0_find
set_option maxRecDepth 20000 in
theorem ggX0_leave_X2_become : GoodIn wsX0_leave wsX2_become := goodIn_r _ [18, 13, 14, 22, 23] (by decide +kernel) (by decide +kernel)
set_option maxRecDepth 20000 in
theorem gX0_leave_X2_become : GoodIn wsX0_leave (wsV RX0 26 RX2 yX2_become wsX2_become) := goodIn_app (goodIn_of _ (by decide +kernel)) ggX0_leave_X2_become
theorem dX0_leave_0 : decode cX0_leave 0 = .ok (.aload_n 0, 1) := by decide +kernel
theorem dX0_leave_1 : decode cX0_leave 1 = .ok (.aload_n 1, 1) := by decide +kernel
theorem dX0_leave_2 : decode cX0_leave 2 = .ok (.invokevirtual 42, 3) := by decide +kernel
theorem dX0_leave_5 : decode cX0_leave 5 = .ok (.istore_n 2, 1) := by decide +kernel
theorem dX0_leave_6 : decode cX0_leave 6 = .ok (.iload_n 2, 1) := by decide +kernel
theorem dX0_leave_7 : decode cX0_leave 7 = .ok (.iconst (-1), 1) := by decide +kernel
theorem dX0_leave_8 : decode cX0_leave 8 = .ok (.if_icmp .ne 5, 3) := by decide +kernel
theorem dX0_leave_11 : decode cX0_leave 11 = .ok (.iconst 0, 1) := by decide +kernel
theorem dX0_leave_12 : decode cX0_leave 12 = .ok (.ireturn, 1) := by decide +kernel
theorem dX0_leave_13 : decode cX0_leave 13 = .ok (.iload_n 2, 1) := by decide +kernel
theorem dX0_leave_14 : decode cX0_leave 14 = .ok (.iconst 1, 1) := by decide +kernel
theorem dX0_leave_15 : decode cX0_leave 15 = .ok (.iadd, 1) := by decide +kernel
theorem dX0_leave_16 : decode cX0_leave 16 = .ok (.istore_n 3, 1) := by decide +kernel
theorem dX0_leave_17 : decode cX0_leave 17 = .ok (.iload_n 3, 1) := by decide +kernel
theorem dX0_leave_18 : decode cX0_leave 18 = .ok (.aload_n 0, 1) := by decide +kernel
theorem dX0_leave_19 : decode cX0_leave 19 = .ok (.getfield 22, 3) := by decide +kernel
theorem dX0_leave_22 : decode cX0_leave 22 = .ok (.if_icmp .ge 26, 3) := by decide +kernel
theorem dX0_leave_25 : decode cX0_leave 25 = .ok (.aload_n 0, 1) := by decide +kernel
theorem dX0_leave_26 : decode cX0_leave 26 = .ok (.getfield 11, 3) := by decide +kernel
theorem dX0_leave_29 : decode cX0_leave 29 = .ok (.iload_n 3, 1) := by decide +kernel
theorem dX0_leave_30 : decode cX0_leave 30 = .ok (.iconst 1, 1) := by decide +kernel
theorem dX0_leave_31 : decode cX0_leave 31 = .ok (.isub, 1) := by decide +kernel
theorem dX0_leave_32 : decode cX0_leave 32 = .ok (.aaload, 1) := by decide +kernel
theorem dX0_leave_33 : decode cX0_leave 33 = .ok (.aload_n 0, 1) := by decide +kernel
theorem dX0_leave_34 : decode cX0_leave 34 = .ok (.getfield 11, 3) := by decide +kernel
theorem dX0_leave_37 : decode cX0_leave 37 = .ok (.iload_n 3, 1) := by decide +kernel
theorem dX0_leave_38 : decode cX0_leave 38 = .ok (.aaload, 1) := by decide +kernel
theorem dX0_leave_39 : decode cX0_leave 39 = .ok (.invokevirtual 26, 3) := by decide +kernel
theorem dX0_leave_42 : decode cX0_leave 42 = .ok (.iinc 3 1, 3) := by decide +kernel
theorem dX0_leave_45 : decode cX0_leave 45 = .ok (.goto (-28), 3) := by decide +kernel
theorem dX0_leave_48 : decode cX0_leave 48 = .ok (.aload_n 0, 1) := by decide +kernel
theorem dX0_leave_49 : decode cX0_leave 49 = .ok (.dup, 1) := by decide +kernel
theorem dX0_leave_50 : decode cX0_leave 50 = .ok (.getfield 22, 3) := by decide +kernel
theorem dX0_leave_53 : decode cX0_leave 53 = .ok (.iconst 1, 1) := by decide +kernel
theorem dX0_leave_54 : decode cX0_leave 54 = .ok (.isub, 1) := by decide +kernel
theorem dX0_leave_55 : decode cX0_leave 55 = .ok (.putfield 22, 3) := by decide +kernel
theorem dX0_leave_58 : decode cX0_leave 58 = .ok (.iconst 1, 1) := by decide +kernel
theorem dX0_leave_59 : decode cX0_leave 59 = .ok (.ireturn, 1) := by decide +kernel
set_option maxRecDepth 20000 in
theorem ggX0_spreadInto_X0_make : GoodIn wsX0_spreadInto wsX0_make := goodIn_ca (goodIn_r _ [7, 2, 8, 9, 10, 11, 12, 13, 14, 15, 16, 17, 18, 19, 20, 21, 22, 39, 40, 41, 42, 43] (by decide +kernel) (by decide +kernel)) (goodIn_sub (fun _ h => List.mem_cons_of_mem _ (List.mem_append_right _ h)) (by decide +kernel))
set_option maxRecDepth 20000 in
theorem gX0_spreadInto_X0_make : GoodIn wsX0_spreadInto (wsV RX0 49 RX0 yX0_make wsX0_make) := goodIn_app (goodIn_of _ (by decide +kernel)) ggX0_spreadInto_X0_make
set_option maxRecDepth 20000 in
theorem ggX0_spreadInto_X0_enter : GoodIn wsX0_spreadInto wsX0_enter := goodIn_r _ [26, 1, 8, 27, 28, 29, 6, 30, 31, 32, 33, 12, 34, 14, 15, 35, 36, 37, 38, 9, 10, 11, 13, 39, 40, 41, 42, 43] (by decide +kernel) (by decide +kernel)
set_option maxRecDepth 20000 in
theorem gX0_spreadInto_X0_enter : GoodIn wsX0_spreadInto (wsV RX0 53 RX0 yX0_enter wsX0_enter) := goodIn_app (goodIn_of _ (by decide +kernel)) ggX0_spreadInto_X0_enter
theorem dX0_spreadInto_0 : decode cX0_spreadInto 0 = .ok (.iconst 0, 1) := by decide +kernel
theorem dX0_spreadInto_1 : decode cX0_spreadInto 1 = .ok (.istore_n 3, 1) := by decide +kernel
theorem dX0_spreadInto_2 : decode cX0_spreadInto 2 = .ok (.iload_n 3, 1) := by decide +kernel
theorem dX0_spreadInto_3 : decode cX0_spreadInto 3 = .ok (.aload_n 0, 1) := by decide +kernel
theorem dX0_spreadInto_4 : decode cX0_spreadInto 4 = .ok (.getfield 22, 3) := by decide +kernel
theorem dX0_spreadInto_7 : decode cX0_spreadInto 7 = .ok (.if_icmp .ge 54, 3) := by decide +kernel
theorem dX0_spreadInto_10 : decode cX0_spreadInto 10 = .ok (.iconst 0, 1) := by decide +kernel
theorem dX0_spreadInto_11 : decode cX0_spreadInto 11 = .ok (.istore 4, 2) := by decide +kernel
theorem dX0_spreadInto_13 : decode cX0_spreadInto 13 = .ok (.iload 4, 2) := by decide +kernel
theorem dX0_spreadInto_15 : decode cX0_spreadInto 15 = .ok (.aload_n 0, 1) := by decide +kernel
theorem dX0_spreadInto_16 : decode cX0_spreadInto 16 = .ok (.getfield 22, 3) := by decide +kernel
theorem dX0_spreadInto_19 : decode cX0_spreadInto 19 = .ok (.if_icmp .ge 36, 3) := by decide +kernel
theorem dX0_spreadInto_22 : decode cX0_spreadInto 22 = .ok (.iload_n 3, 1) := by decide +kernel
theorem dX0_spreadInto_23 : decode cX0_spreadInto 23 = .ok (.iload 4, 2) := by decide +kernel
theorem dX0_spreadInto_25 : decode cX0_spreadInto 25 = .ok (.if_icmp .eq 24, 3) := by decide +kernel
theorem dX0_spreadInto_28 : decode cX0_spreadInto 28 = .ok (.aload_n 0, 1) := by decide +kernel
theorem dX0_spreadInto_29 : decode cX0_spreadInto 29 = .ok (.iload_n 2, 1) := by decide +kernel
theorem dX0_spreadInto_30 : decode cX0_spreadInto 30 = .ok (.iload_n 3, 1) := by decide +kernel
theorem dX0_spreadInto_31 : decode cX0_spreadInto 31 = .ok (.iload 4, 2) := by decide +kernel
theorem dX0_spreadInto_33 : decode cX0_spreadInto 33 = .ok (.invokevirtual 49, 3) := by decide +kernel
theorem dX0_spreadInto_36 : decode cX0_spreadInto 36 = .ok (.aload_n 1, 1) := by decide +kernel
theorem dX0_spreadInto_37 : decode cX0_spreadInto 37 = .ok (.aload_n 0, 1) := by decide +kernel
theorem dX0_spreadInto_38 : decode cX0_spreadInto 38 = .ok (.getfield 18, 3) := by decide +kernel
theorem dX0_spreadInto_41 : decode cX0_spreadInto 41 = .ok (.invokevirtual 53, 3) := by decide +kernel
theorem dX0_spreadInto_44 : decode cX0_spreadInto 44 = .ok (.ifCond .ne 5, 3) := by decide +kernel
theorem dX0_spreadInto_47 : decode cX0_spreadInto 47 = .ok (.iconst 0, 1) := by decide +kernel
theorem dX0_spreadInto_48 : decode cX0_spreadInto 48 = .ok (.ireturn, 1) := by decide +kernel
theorem dX0_spreadInto_49 : decode cX0_spreadInto 49 = .ok (.iinc 4 1, 3) := by decide +kernel
theorem dX0_spreadInto_52 : decode cX0_spreadInto 52 = .ok (.goto (-39), 3) := by decide +kernel
theorem dX0_spreadInto_55 : decode cX0_spreadInto 55 = .ok (.iinc 3 1, 3) := by decide +kernel
theorem dX0_spreadInto_58 : decode cX0_spreadInto 58 = .ok (.goto (-56), 3) := by decide +kernel
theorem dX0_spreadInto_61 : decode cX0_spreadInto 61 = .ok (.iconst 1, 1) := by decide +kernel
theorem dX0_spreadInto_62 : decode cX0_spreadInto 62 = .ok (.ireturn, 1) := by decide +kernel
set_option maxRecDepth 20000 in
theorem ggX0_closedUnder_X0_make : GoodIn wsX0_closedUnder wsX0_make := goodIn_ca (goodIn_r _ [7, 2, 8, 9, 10, 11, 12, 13, 14, 15, 16, 17, 18, 19, 20, 21, 22, 31, 32, 33, 34, 35] (by decide +kernel) (by decide +kernel)) (goodIn_sub (fun _ h => List.mem_cons_of_mem _ (List.mem_append_right _ h)) (by decide +kernel))
set_option maxRecDepth 20000 in
theorem gX0_closedUnder_X0_make : GoodIn wsX0_closedUnder (wsV RX0 49 RX0 yX0_make wsX0_make) := goodIn_app (goodIn_of _ (by decide +kernel)) ggX0_closedUnder_X0_make
set_option maxRecDepth 20000 in
theorem ggX0_closedUnder_X0_find : GoodIn wsX0_closedUnder wsX0_find := goodIn_r _ [26, 1, 8, 27, 28, 29, 12, 30, 14, 15, 31, 32, 33, 34, 35] (by decide +kernel) (by decide +kernel)
set_option maxRecDepth 20000 in
theorem gX0_closedUnder_X0_find : GoodIn wsX0_closedUnder (wsV RX0 42 RX0 yX0_find wsX0_find) := goodIn_app (goodIn_of _ (by decide +kernel)) ggX0_closedUnder_X0_find
theorem dX0_closedUnder_0 : decode cX0_closedUnder 0 = .ok (.iconst 0, 1) := by decide +kernel
theorem dX0_closedUnder_1 : decode cX0_closedUnder 1 = .ok (.istore_n 2, 1) := by decide +kernel
theorem dX0_closedUnder_2 : decode cX0_closedUnder 2 = .ok (.iload_n 2, 1) := by decide +kernel
theorem dX0_closedUnder_3 : decode cX0_closedUnder 3 = .ok (.aload_n 0, 1) := by decide +kernel
theorem dX0_closedUnder_4 : decode cX0_closedUnder 4 = .ok (.getfield 22, 3) := by decide +kernel
theorem dX0_closedUnder_7 : decode cX0_closedUnder 7 = .ok (.if_icmp .ge 51, 3) := by decide +kernel
theorem dX0_closedUnder_10 : decode cX0_closedUnder 10 = .ok (.iconst 0, 1) := by decide +kernel
theorem dX0_closedUnder_11 : decode cX0_closedUnder 11 = .ok (.istore_n 3, 1) := by decide +kernel
theorem dX0_closedUnder_12 : decode cX0_closedUnder 12 = .ok (.iload_n 3, 1) := by decide +kernel
theorem dX0_closedUnder_13 : decode cX0_closedUnder 13 = .ok (.aload_n 0, 1) := by decide +kernel
theorem dX0_closedUnder_14 : decode cX0_closedUnder 14 = .ok (.getfield 22, 3) := by decide +kernel
theorem dX0_closedUnder_17 : decode cX0_closedUnder 17 = .ok (.if_icmp .ge 35, 3) := by decide +kernel
theorem dX0_closedUnder_20 : decode cX0_closedUnder 20 = .ok (.iload_n 2, 1) := by decide +kernel
theorem dX0_closedUnder_21 : decode cX0_closedUnder 21 = .ok (.iload_n 3, 1) := by decide +kernel
theorem dX0_closedUnder_22 : decode cX0_closedUnder 22 = .ok (.if_icmp .eq 24, 3) := by decide +kernel
theorem dX0_closedUnder_25 : decode cX0_closedUnder 25 = .ok (.aload_n 0, 1) := by decide +kernel
theorem dX0_closedUnder_26 : decode cX0_closedUnder 26 = .ok (.iload_n 1, 1) := by decide +kernel
theorem dX0_closedUnder_27 : decode cX0_closedUnder 27 = .ok (.iload_n 2, 1) := by decide +kernel
theorem dX0_closedUnder_28 : decode cX0_closedUnder 28 = .ok (.iload_n 3, 1) := by decide +kernel
theorem dX0_closedUnder_29 : decode cX0_closedUnder 29 = .ok (.invokevirtual 49, 3) := by decide +kernel
theorem dX0_closedUnder_32 : decode cX0_closedUnder 32 = .ok (.aload_n 0, 1) := by decide +kernel
theorem dX0_closedUnder_33 : decode cX0_closedUnder 33 = .ok (.aload_n 0, 1) := by decide +kernel
theorem dX0_closedUnder_34 : decode cX0_closedUnder 34 = .ok (.getfield 18, 3) := by decide +kernel
theorem dX0_closedUnder_37 : decode cX0_closedUnder 37 = .ok (.invokevirtual 42, 3) := by decide +kernel
theorem dX0_closedUnder_40 : decode cX0_closedUnder 40 = .ok (.iconst (-1), 1) := by decide +kernel
theorem dX0_closedUnder_41 : decode cX0_closedUnder 41 = .ok (.if_icmp .ne 5, 3) := by decide +kernel
theorem dX0_closedUnder_44 : decode cX0_closedUnder 44 = .ok (.iconst 0, 1) := by decide +kernel
theorem dX0_closedUnder_45 : decode cX0_closedUnder 45 = .ok (.ireturn, 1) := by decide +kernel
theorem dX0_closedUnder_46 : decode cX0_closedUnder 46 = .ok (.iinc 3 1, 3) := by decide +kernel
theorem dX0_closedUnder_49 : decode cX0_closedUnder 49 = .ok (.goto (-37), 3) := by decide +kernel
theorem dX0_closedUnder_52 : decode cX0_closedUnder 52 = .ok (.iinc 2 1, 3) := by decide +kernel
theorem dX0_closedUnder_55 : decode cX0_closedUnder 55 = .ok (.goto (-53), 3) := by decide +kernel
theorem dX0_closedUnder_58 : decode cX0_closedUnder 58 = .ok (.iconst 1, 1) := by decide +kernel
theorem dX0_closedUnder_59 : decode cX0_closedUnder 59 = .ok (.ireturn, 1) := by decide +kernel
set_option maxRecDepth 20000 in
theorem ggX0_make_X2_become : GoodIn wsX0_make wsX2_become := goodIn_r _ [7, 8, 9, 20, 21] (by decide +kernel) (by decide +kernel)
set_option maxRecDepth 20000 in
theorem gX0_make_X2_become : GoodIn wsX0_make (wsV RX0 26 RX2 yX2_become wsX2_become) := goodIn_app (goodIn_of _ (by decide +kernel)) ggX0_make_X2_become
set_option maxRecDepth 20000 in
theorem ggX0_make_X2_combine : GoodIn wsX0_make wsX2_combine := goodIn_ca (goodIn_r _ [13, 14, 15, 8, 9, 16, 20, 21] (by decide +kernel) (by decide +kernel)) (goodIn_sub (fun _ h => List.mem_cons_of_mem _ (List.mem_append_right _ h)) (by decide +kernel))
set_option maxRecDepth 20000 in
theorem gX0_make_X2_combine : GoodIn wsX0_make (wsV RX0 56 RX2 yX2_combine wsX2_combine) := goodIn_app (goodIn_of _ (by decide +kernel)) ggX0_make_X2_combine
theorem dX0_make_0 : decode cX0_make 0 = .ok (.aload_n 0, 1) := by decide +kernel
theorem dX0_make_1 : decode cX0_make 1 = .ok (.getfield 18, 3) := by decide +kernel
theorem dX0_make_4 : decode cX0_make 4 = .ok (.aload_n 0, 1) := by decide +kernel
theorem dX0_make_5 : decode cX0_make 5 = .ok (.getfield 11, 3) := by decide +kernel
theorem dX0_make_8 : decode cX0_make 8 = .ok (.iload_n 2, 1) := by decide +kernel
theorem dX0_make_9 : decode cX0_make 9 = .ok (.aaload, 1) := by decide +kernel
theorem dX0_make_10 : decode cX0_make 10 = .ok (.invokevirtual 26, 3) := by decide +kernel
theorem dX0_make_13 : decode cX0_make 13 = .ok (.aload_n 0, 1) := by decide +kernel
theorem dX0_make_14 : decode cX0_make 14 = .ok (.getfield 18, 3) := by decide +kernel
theorem dX0_make_17 : decode cX0_make 17 = .ok (.iload_n 1, 1) := by decide +kernel
theorem dX0_make_18 : decode cX0_make 18 = .ok (.aload_n 0, 1) := by decide +kernel
theorem dX0_make_19 : decode cX0_make 19 = .ok (.getfield 11, 3) := by decide +kernel
theorem dX0_make_22 : decode cX0_make 22 = .ok (.iload_n 3, 1) := by decide +kernel
theorem dX0_make_23 : decode cX0_make 23 = .ok (.aaload, 1) := by decide +kernel
theorem dX0_make_24 : decode cX0_make 24 = .ok (.invokevirtual 56, 3) := by decide +kernel
theorem dX0_make_27 : decode cX0_make 27 = .ok (.pop, 1) := by decide +kernel
theorem dX0_make_28 : decode cX0_make 28 = .ok (.return_, 1) := by decide +kernel
set_option maxRecDepth 20000 in
theorem ggX0_allNested_X2_holdsAll : GoodIn wsX0_allNested wsX2_holdsAll := goodIn_ca (goodIn_r _ [7, 8, 9, 10, 11, 12, 16, 17] (by decide +kernel) (by decide +kernel)) (goodIn_sub (fun _ h => List.mem_cons_of_mem _ (List.mem_append_right _ h)) (by decide +kernel))
set_option maxRecDepth 20000 in
theorem gX0_allNested_X2_holdsAll : GoodIn wsX0_allNested (wsV RX0 60 RX2 yX2_holdsAll wsX2_holdsAll) := goodIn_app (goodIn_of _ (by decide +kernel)) ggX0_allNested_X2_holdsAll
theorem dX0_allNested_0 : decode cX0_allNested 0 = .ok (.iconst 0, 1) := by decide +kernel
theorem dX0_allNested_1 : decode cX0_allNested 1 = .ok (.istore_n 1, 1) := by decide +kernel
theorem dX0_allNested_2 : decode cX0_allNested 2 = .ok (.iload_n 1, 1) := by decide +kernel
theorem dX0_allNested_3 : decode cX0_allNested 3 = .ok (.aload_n 0, 1) := by decide +kernel
theorem dX0_allNested_4 : decode cX0_allNested 4 = .ok (.getfield 22, 3) := by decide +kernel
theorem dX0_allNested_7 : decode cX0_allNested 7 = .ok (.if_icmp .ge 65, 3) := by decide +kernel
theorem dX0_allNested_10 : decode cX0_allNested 10 = .ok (.iload_n 1, 1) := by decide +kernel
theorem dX0_allNested_11 : decode cX0_allNested 11 = .ok (.iconst 1, 1) := by decide +kernel
theorem dX0_allNested_12 : decode cX0_allNested 12 = .ok (.iadd, 1) := by decide +kernel
theorem dX0_allNested_13 : decode cX0_allNested 13 = .ok (.istore_n 2, 1) := by decide +kernel
theorem dX0_allNested_14 : decode cX0_allNested 14 = .ok (.iload_n 2, 1) := by decide +kernel
theorem dX0_allNested_15 : decode cX0_allNested 15 = .ok (.aload_n 0, 1) := by decide +kernel
theorem dX0_allNested_16 : decode cX0_allNested 16 = .ok (.getfield 22, 3) := by decide +kernel
theorem dX0_allNested_19 : decode cX0_allNested 19 = .ok (.if_icmp .ge 47, 3) := by decide +kernel
theorem dX0_allNested_22 : decode cX0_allNested 22 = .ok (.aload_n 0, 1) := by decide +kernel
theorem dX0_allNested_23 : decode cX0_allNested 23 = .ok (.getfield 11, 3) := by decide +kernel
theorem dX0_allNested_26 : decode cX0_allNested 26 = .ok (.iload_n 1, 1) := by decide +kernel
theorem dX0_allNested_27 : decode cX0_allNested 27 = .ok (.aaload, 1) := by decide +kernel
theorem dX0_allNested_28 : decode cX0_allNested 28 = .ok (.aload_n 0, 1) := by decide +kernel
theorem dX0_allNested_29 : decode cX0_allNested 29 = .ok (.getfield 11, 3) := by decide +kernel
theorem dX0_allNested_32 : decode cX0_allNested 32 = .ok (.iload_n 2, 1) := by decide +kernel
theorem dX0_allNested_33 : decode cX0_allNested 33 = .ok (.aaload, 1) := by decide +kernel
theorem dX0_allNested_34 : decode cX0_allNested 34 = .ok (.invokevirtual 60, 3) := by decide +kernel
theorem dX0_allNested_37 : decode cX0_allNested 37 = .ok (.ifCond .ne 23, 3) := by decide +kernel
theorem dX0_allNested_40 : decode cX0_allNested 40 = .ok (.aload_n 0, 1) := by decide +kernel
theorem dX0_allNested_41 : decode cX0_allNested 41 = .ok (.getfield 11, 3) := by decide +kernel
theorem dX0_allNested_44 : decode cX0_allNested 44 = .ok (.iload_n 2, 1) := by decide +kernel
theorem dX0_allNested_45 : decode cX0_allNested 45 = .ok (.aaload, 1) := by decide +kernel
theorem dX0_allNested_46 : decode cX0_allNested 46 = .ok (.aload_n 0, 1) := by decide +kernel
theorem dX0_allNested_47 : decode cX0_allNested 47 = .ok (.getfield 11, 3) := by decide +kernel
theorem dX0_allNested_50 : decode cX0_allNested 50 = .ok (.iload_n 1, 1) := by decide +kernel
theorem dX0_allNested_51 : decode cX0_allNested 51 = .ok (.aaload, 1) := by decide +kernel
theorem dX0_allNested_52 : decode cX0_allNested 52 = .ok (.invokevirtual 60, 3) := by decide +kernel
theorem dX0_allNested_55 : decode cX0_allNested 55 = .ok (.ifCond .ne 5, 3) := by decide +kernel
theorem dX0_allNested_58 : decode cX0_allNested 58 = .ok (.iconst 0, 1) := by decide +kernel
theorem dX0_allNested_59 : decode cX0_allNested 59 = .ok (.ireturn, 1) := by decide +kernel
theorem dX0_allNested_60 : decode cX0_allNested 60 = .ok (.iinc 2 1, 3) := by decide +kernel
theorem dX0_allNested_63 : decode cX0_allNested 63 = .ok (.goto (-49), 3) := by decide +kernel
theorem dX0_allNested_66 : decode cX0_allNested 66 = .ok (.iinc 1 1, 3) := by decide +kernel
theorem dX0_allNested_69 : decode cX0_allNested 69 = .ok (.goto (-67), 3) := by decide +kernel
theorem dX0_allNested_72 : decode cX0_allNested 72 = .ok (.iconst 1, 1) := by decide +kernel
theorem dX0_allNested_73 : decode cX0_allNested 73 = .ok (.ireturn, 1) := by decide +kernel
set_option maxRecDepth 20000 in
theorem ggX0_primePlaces_X0_allPlaces : GoodIn wsX0_primePlaces wsX0_allPlaces := goodIn_r _ [7, 1, 39, 40, 41] (by decide +kernel) (by decide +kernel)
set_option maxRecDepth 20000 in
theorem gX0_primePlaces_X0_allPlaces : GoodIn wsX0_primePlaces (wsV RX0 63 RX0 yX0_allPlaces wsX0_allPlaces) := goodIn_app (goodIn_of _ (by decide +kernel)) ggX0_primePlaces_X0_allPlaces
set_option maxRecDepth 20000 in
theorem ggX0_primePlaces_X0_placesWithin : GoodIn wsX0_primePlaces wsX0_placesWithin := goodIn_ca (goodIn_r _ [11, 1, 2, 12, 13, 14, 15, 16, 17, 18, 19, 20, 21, 39, 40, 41, 42, 43] (by decide +kernel) (by decide +kernel)) (goodIn_sub (fun _ h => List.mem_cons_of_mem _ (List.mem_append_right _ h)) (by decide +kernel))
set_option maxRecDepth 20000 in
theorem gX0_primePlaces_X0_placesWithin : GoodIn wsX0_primePlaces (wsV RX0 66 RX0 yX0_placesWithin wsX0_placesWithin) := goodIn_app (goodIn_of _ (by decide +kernel)) ggX0_primePlaces_X0_placesWithin
set_option maxRecDepth 20000 in
theorem ggX0_primePlaces_X0_isUnionOf : GoodIn wsX0_primePlaces wsX0_isUnionOf := goodIn_ca (goodIn_r _ [25, 26, 1, 2, 27, 28, 29, 15, 30, 19, 21, 31, 32, 33, 34, 17, 18, 20, 35, 36, 37, 38, 39, 40, 41, 42, 43] (by decide +kernel) (by decide +kernel)) (goodIn_sub (fun _ h => List.mem_cons_of_mem _ (List.mem_append_right _ h)) (by decide +kernel))
set_option maxRecDepth 20000 in
theorem gX0_primePlaces_X0_isUnionOf : GoodIn wsX0_primePlaces (wsV RX0 70 RX0 yX0_isUnionOf wsX0_isUnionOf) := goodIn_app (goodIn_of _ (by decide +kernel)) ggX0_primePlaces_X0_isUnionOf
theorem dX0_primePlaces_0 : decode cX0_primePlaces 0 = .ok (.iconst 0, 1) := by decide +kernel
theorem dX0_primePlaces_1 : decode cX0_primePlaces 1 = .ok (.istore_n 1, 1) := by decide +kernel
theorem dX0_primePlaces_2 : decode cX0_primePlaces 2 = .ok (.iconst 0, 1) := by decide +kernel
theorem dX0_primePlaces_3 : decode cX0_primePlaces 3 = .ok (.istore_n 2, 1) := by decide +kernel
theorem dX0_primePlaces_4 : decode cX0_primePlaces 4 = .ok (.iload_n 2, 1) := by decide +kernel
theorem dX0_primePlaces_5 : decode cX0_primePlaces 5 = .ok (.aload_n 0, 1) := by decide +kernel
theorem dX0_primePlaces_6 : decode cX0_primePlaces 6 = .ok (.getfield 22, 3) := by decide +kernel
theorem dX0_primePlaces_9 : decode cX0_primePlaces 9 = .ok (.if_icmp .ge 45, 3) := by decide +kernel
theorem dX0_primePlaces_12 : decode cX0_primePlaces 12 = .ok (.aload_n 0, 1) := by decide +kernel
theorem dX0_primePlaces_13 : decode cX0_primePlaces 13 = .ok (.invokevirtual 63, 3) := by decide +kernel
theorem dX0_primePlaces_16 : decode cX0_primePlaces 16 = .ok (.iconst 1, 1) := by decide +kernel
theorem dX0_primePlaces_17 : decode cX0_primePlaces 17 = .ok (.iload_n 2, 1) := by decide +kernel
theorem dX0_primePlaces_18 : decode cX0_primePlaces 18 = .ok (.ishl, 1) := by decide +kernel
theorem dX0_primePlaces_19 : decode cX0_primePlaces 19 = .ok (.iconst (-1), 1) := by decide +kernel
theorem dX0_primePlaces_20 : decode cX0_primePlaces 20 = .ok (.ixor, 1) := by decide +kernel
theorem dX0_primePlaces_21 : decode cX0_primePlaces 21 = .ok (.iand, 1) := by decide +kernel
theorem dX0_primePlaces_22 : decode cX0_primePlaces 22 = .ok (.istore_n 3, 1) := by decide +kernel
theorem dX0_primePlaces_23 : decode cX0_primePlaces 23 = .ok (.aload_n 0, 1) := by decide +kernel
theorem dX0_primePlaces_24 : decode cX0_primePlaces 24 = .ok (.iload_n 2, 1) := by decide +kernel
theorem dX0_primePlaces_25 : decode cX0_primePlaces 25 = .ok (.aload_n 0, 1) := by decide +kernel
theorem dX0_primePlaces_26 : decode cX0_primePlaces 26 = .ok (.iload_n 3, 1) := by decide +kernel
theorem dX0_primePlaces_27 : decode cX0_primePlaces 27 = .ok (.aload_n 0, 1) := by decide +kernel
theorem dX0_primePlaces_28 : decode cX0_primePlaces 28 = .ok (.getfield 11, 3) := by decide +kernel
theorem dX0_primePlaces_31 : decode cX0_primePlaces 31 = .ok (.iload_n 2, 1) := by decide +kernel
theorem dX0_primePlaces_32 : decode cX0_primePlaces 32 = .ok (.aaload, 1) := by decide +kernel
theorem dX0_primePlaces_33 : decode cX0_primePlaces 33 = .ok (.invokevirtual 66, 3) := by decide +kernel
theorem dX0_primePlaces_36 : decode cX0_primePlaces 36 = .ok (.invokevirtual 70, 3) := by decide +kernel
theorem dX0_primePlaces_39 : decode cX0_primePlaces 39 = .ok (.ifCond .ne 9, 3) := by decide +kernel
theorem dX0_primePlaces_42 : decode cX0_primePlaces 42 = .ok (.iload_n 1, 1) := by decide +kernel
theorem dX0_primePlaces_43 : decode cX0_primePlaces 43 = .ok (.iconst 1, 1) := by decide +kernel
theorem dX0_primePlaces_44 : decode cX0_primePlaces 44 = .ok (.iload_n 2, 1) := by decide +kernel
theorem dX0_primePlaces_45 : decode cX0_primePlaces 45 = .ok (.ishl, 1) := by decide +kernel
theorem dX0_primePlaces_46 : decode cX0_primePlaces 46 = .ok (.ior, 1) := by decide +kernel
theorem dX0_primePlaces_47 : decode cX0_primePlaces 47 = .ok (.istore_n 1, 1) := by decide +kernel
theorem dX0_primePlaces_48 : decode cX0_primePlaces 48 = .ok (.iinc 2 1, 3) := by decide +kernel
theorem dX0_primePlaces_51 : decode cX0_primePlaces 51 = .ok (.goto (-47), 3) := by decide +kernel
theorem dX0_primePlaces_54 : decode cX0_primePlaces 54 = .ok (.iload_n 1, 1) := by decide +kernel
theorem dX0_primePlaces_55 : decode cX0_primePlaces 55 = .ok (.ireturn, 1) := by decide +kernel
theorem dX0_allPlaces_0 : decode cX0_allPlaces 0 = .ok (.iconst 1, 1) := by decide +kernel
theorem dX0_allPlaces_1 : decode cX0_allPlaces 1 = .ok (.aload_n 0, 1) := by decide +kernel
theorem dX0_allPlaces_2 : decode cX0_allPlaces 2 = .ok (.getfield 22, 3) := by decide +kernel
theorem dX0_allPlaces_5 : decode cX0_allPlaces 5 = .ok (.ishl, 1) := by decide +kernel
theorem dX0_allPlaces_6 : decode cX0_allPlaces 6 = .ok (.iconst 1, 1) := by decide +kernel
theorem dX0_allPlaces_7 : decode cX0_allPlaces 7 = .ok (.isub, 1) := by decide +kernel
theorem dX0_allPlaces_8 : decode cX0_allPlaces 8 = .ok (.ireturn, 1) := by decide +kernel
set_option maxRecDepth 20000 in
theorem ggX0_placesWithin_X2_holdsAll : GoodIn wsX0_placesWithin wsX2_holdsAll := goodIn_ca (goodIn_r _ [7, 8, 9, 10, 11, 12, 16, 17] (by decide +kernel) (by decide +kernel)) (goodIn_sub (fun _ h => List.mem_cons_of_mem _ (List.mem_append_right _ h)) (by decide +kernel))
set_option maxRecDepth 20000 in
theorem gX0_placesWithin_X2_holdsAll : GoodIn wsX0_placesWithin (wsV RX0 60 RX2 yX2_holdsAll wsX2_holdsAll) := goodIn_app (goodIn_of _ (by decide +kernel)) ggX0_placesWithin_X2_holdsAll
theorem dX0_placesWithin_0 : decode cX0_placesWithin 0 = .ok (.iconst 0, 1) := by decide +kernel
theorem dX0_placesWithin_1 : decode cX0_placesWithin 1 = .ok (.istore_n 3, 1) := by decide +kernel
theorem dX0_placesWithin_2 : decode cX0_placesWithin 2 = .ok (.iconst 0, 1) := by decide +kernel
theorem dX0_placesWithin_3 : decode cX0_placesWithin 3 = .ok (.istore 4, 2) := by decide +kernel
theorem dX0_placesWithin_5 : decode cX0_placesWithin 5 = .ok (.iload 4, 2) := by decide +kernel
theorem dX0_placesWithin_7 : decode cX0_placesWithin 7 = .ok (.aload_n 0, 1) := by decide +kernel
theorem dX0_placesWithin_8 : decode cX0_placesWithin 8 = .ok (.getfield 22, 3) := by decide +kernel
theorem dX0_placesWithin_11 : decode cX0_placesWithin 11 = .ok (.if_icmp .ge 39, 3) := by decide +kernel
theorem dX0_placesWithin_14 : decode cX0_placesWithin 14 = .ok (.iload_n 1, 1) := by decide +kernel
theorem dX0_placesWithin_15 : decode cX0_placesWithin 15 = .ok (.iload 4, 2) := by decide +kernel
theorem dX0_placesWithin_17 : decode cX0_placesWithin 17 = .ok (.ishr, 1) := by decide +kernel
theorem dX0_placesWithin_18 : decode cX0_placesWithin 18 = .ok (.iconst 1, 1) := by decide +kernel
theorem dX0_placesWithin_19 : decode cX0_placesWithin 19 = .ok (.iand, 1) := by decide +kernel
theorem dX0_placesWithin_20 : decode cX0_placesWithin 20 = .ok (.ifCond .eq 24, 3) := by decide +kernel
theorem dX0_placesWithin_23 : decode cX0_placesWithin 23 = .ok (.aload_n 2, 1) := by decide +kernel
theorem dX0_placesWithin_24 : decode cX0_placesWithin 24 = .ok (.aload_n 0, 1) := by decide +kernel
theorem dX0_placesWithin_25 : decode cX0_placesWithin 25 = .ok (.getfield 11, 3) := by decide +kernel
theorem dX0_placesWithin_28 : decode cX0_placesWithin 28 = .ok (.iload 4, 2) := by decide +kernel
theorem dX0_placesWithin_30 : decode cX0_placesWithin 30 = .ok (.aaload, 1) := by decide +kernel
theorem dX0_placesWithin_31 : decode cX0_placesWithin 31 = .ok (.invokevirtual 60, 3) := by decide +kernel
theorem dX0_placesWithin_34 : decode cX0_placesWithin 34 = .ok (.ifCond .eq 10, 3) := by decide +kernel
theorem dX0_placesWithin_37 : decode cX0_placesWithin 37 = .ok (.iload_n 3, 1) := by decide +kernel
theorem dX0_placesWithin_38 : decode cX0_placesWithin 38 = .ok (.iconst 1, 1) := by decide +kernel
theorem dX0_placesWithin_39 : decode cX0_placesWithin 39 = .ok (.iload 4, 2) := by decide +kernel
theorem dX0_placesWithin_41 : decode cX0_placesWithin 41 = .ok (.ishl, 1) := by decide +kernel
theorem dX0_placesWithin_42 : decode cX0_placesWithin 42 = .ok (.ior, 1) := by decide +kernel
theorem dX0_placesWithin_43 : decode cX0_placesWithin 43 = .ok (.istore_n 3, 1) := by decide +kernel
theorem dX0_placesWithin_44 : decode cX0_placesWithin 44 = .ok (.iinc 4 1, 3) := by decide +kernel
theorem dX0_placesWithin_47 : decode cX0_placesWithin 47 = .ok (.goto (-42), 3) := by decide +kernel
theorem dX0_placesWithin_50 : decode cX0_placesWithin 50 = .ok (.iload_n 3, 1) := by decide +kernel
theorem dX0_placesWithin_51 : decode cX0_placesWithin 51 = .ok (.ireturn, 1) := by decide +kernel
set_option maxRecDepth 20000 in
theorem ggX0_isUnionOf_X2_empty : GoodIn wsX0_isUnionOf wsX2_empty := goodIn_r _ [8, 9, 10, 25, 26] (by decide +kernel) (by decide +kernel)
set_option maxRecDepth 20000 in
theorem gX0_isUnionOf_X2_empty : GoodIn wsX0_isUnionOf (wsV RX0 74 RX2 yX2_empty wsX2_empty) := goodIn_app (goodIn_of _ (by decide +kernel)) ggX0_isUnionOf_X2_empty
set_option maxRecDepth 20000 in
theorem ggX0_isUnionOf_X2_combine : GoodIn wsX0_isUnionOf wsX2_combine := goodIn_ca (goodIn_r _ [14, 15, 16, 9, 10, 17, 25, 26] (by decide +kernel) (by decide +kernel)) (goodIn_sub (fun _ h => List.mem_cons_of_mem _ (List.mem_append_right _ h)) (by decide +kernel))
set_option maxRecDepth 20000 in
theorem gX0_isUnionOf_X2_combine : GoodIn wsX0_isUnionOf (wsV RX0 56 RX2 yX2_combine wsX2_combine) := goodIn_app (goodIn_of _ (by decide +kernel)) ggX0_isUnionOf_X2_combine
set_option maxRecDepth 20000 in
theorem ggX0_isUnionOf_X2_sameAs : GoodIn wsX0_isUnionOf wsX2_sameAs := goodIn_r _ [21, 9, 10, 25, 26] (by decide +kernel) (by decide +kernel)
set_option maxRecDepth 20000 in
theorem gX0_isUnionOf_X2_sameAs : GoodIn wsX0_isUnionOf (wsV RX0 38 RX2 yX2_sameAs wsX2_sameAs) := goodIn_app (goodIn_of _ (by decide +kernel)) ggX0_isUnionOf_X2_sameAs
theorem dX0_isUnionOf_0 : decode cX0_isUnionOf 0 = .ok (.aload_n 0, 1) := by decide +kernel
theorem dX0_isUnionOf_1 : decode cX0_isUnionOf 1 = .ok (.getfield 18, 3) := by decide +kernel
theorem dX0_isUnionOf_4 : decode cX0_isUnionOf 4 = .ok (.invokevirtual 74, 3) := by decide +kernel
theorem dX0_isUnionOf_7 : decode cX0_isUnionOf 7 = .ok (.iconst 0, 1) := by decide +kernel
theorem dX0_isUnionOf_8 : decode cX0_isUnionOf 8 = .ok (.istore_n 3, 1) := by decide +kernel
theorem dX0_isUnionOf_9 : decode cX0_isUnionOf 9 = .ok (.iload_n 3, 1) := by decide +kernel
theorem dX0_isUnionOf_10 : decode cX0_isUnionOf 10 = .ok (.aload_n 0, 1) := by decide +kernel
theorem dX0_isUnionOf_11 : decode cX0_isUnionOf 11 = .ok (.getfield 22, 3) := by decide +kernel
theorem dX0_isUnionOf_14 : decode cX0_isUnionOf 14 = .ok (.if_icmp .ge 32, 3) := by decide +kernel
theorem dX0_isUnionOf_17 : decode cX0_isUnionOf 17 = .ok (.iload_n 2, 1) := by decide +kernel
theorem dX0_isUnionOf_18 : decode cX0_isUnionOf 18 = .ok (.iload_n 3, 1) := by decide +kernel
theorem dX0_isUnionOf_19 : decode cX0_isUnionOf 19 = .ok (.ishr, 1) := by decide +kernel
theorem dX0_isUnionOf_20 : decode cX0_isUnionOf 20 = .ok (.iconst 1, 1) := by decide +kernel
theorem dX0_isUnionOf_21 : decode cX0_isUnionOf 21 = .ok (.iand, 1) := by decide +kernel
theorem dX0_isUnionOf_22 : decode cX0_isUnionOf 22 = .ok (.ifCond .eq 18, 3) := by decide +kernel
theorem dX0_isUnionOf_25 : decode cX0_isUnionOf 25 = .ok (.aload_n 0, 1) := by decide +kernel
theorem dX0_isUnionOf_26 : decode cX0_isUnionOf 26 = .ok (.getfield 18, 3) := by decide +kernel
theorem dX0_isUnionOf_29 : decode cX0_isUnionOf 29 = .ok (.iconst 0, 1) := by decide +kernel
theorem dX0_isUnionOf_30 : decode cX0_isUnionOf 30 = .ok (.aload_n 0, 1) := by decide +kernel
theorem dX0_isUnionOf_31 : decode cX0_isUnionOf 31 = .ok (.getfield 11, 3) := by decide +kernel
theorem dX0_isUnionOf_34 : decode cX0_isUnionOf 34 = .ok (.iload_n 3, 1) := by decide +kernel
theorem dX0_isUnionOf_35 : decode cX0_isUnionOf 35 = .ok (.aaload, 1) := by decide +kernel
theorem dX0_isUnionOf_36 : decode cX0_isUnionOf 36 = .ok (.invokevirtual 56, 3) := by decide +kernel
theorem dX0_isUnionOf_39 : decode cX0_isUnionOf 39 = .ok (.pop, 1) := by decide +kernel
theorem dX0_isUnionOf_40 : decode cX0_isUnionOf 40 = .ok (.iinc 3 1, 3) := by decide +kernel
theorem dX0_isUnionOf_43 : decode cX0_isUnionOf 43 = .ok (.goto (-34), 3) := by decide +kernel
theorem dX0_isUnionOf_46 : decode cX0_isUnionOf 46 = .ok (.aload_n 0, 1) := by decide +kernel
theorem dX0_isUnionOf_47 : decode cX0_isUnionOf 47 = .ok (.getfield 18, 3) := by decide +kernel
theorem dX0_isUnionOf_50 : decode cX0_isUnionOf 50 = .ok (.aload_n 0, 1) := by decide +kernel
theorem dX0_isUnionOf_51 : decode cX0_isUnionOf 51 = .ok (.getfield 11, 3) := by decide +kernel
theorem dX0_isUnionOf_54 : decode cX0_isUnionOf 54 = .ok (.iload_n 1, 1) := by decide +kernel
theorem dX0_isUnionOf_55 : decode cX0_isUnionOf 55 = .ok (.aaload, 1) := by decide +kernel
theorem dX0_isUnionOf_56 : decode cX0_isUnionOf 56 = .ok (.invokevirtual 38, 3) := by decide +kernel
theorem dX0_isUnionOf_59 : decode cX0_isUnionOf 59 = .ok (.ireturn, 1) := by decide +kernel
set_option maxRecDepth 20000 in
theorem ggX0_errors_X0_primePlaces : GoodIn wsX0_errors wsX0_primePlaces := goodIn_ca (goodIn_r _ [7, 1, 2, 8, 9, 10, 6, 11, 12, 13, 14, 15, 16, 17, 18, 19, 20, 21, 22, 23, 24, 25, 26, 27, 28, 29, 30, 31, 32, 33, 34, 35, 36, 37, 38, 39, 40, 41, 42, 43, 44, 45, 46, 47] (by decide +kernel) (by decide +kernel)) (goodIn_sub (fun _ h => List.mem_cons_of_mem _ (List.mem_append_right _ h)) (by decide +kernel))
set_option maxRecDepth 20000 in
theorem gX0_errors_X0_primePlaces : GoodIn wsX0_errors (wsV RX0 77 RX0 yX0_primePlaces wsX0_primePlaces) := goodIn_app (goodIn_of _ (by decide +kernel)) ggX0_errors_X0_primePlaces
set_option maxRecDepth 20000 in
theorem ggX0_errors_X0_placesWithin : GoodIn wsX0_errors wsX0_placesWithin := goodIn_ca (goodIn_r _ [15, 1, 2, 16, 17, 18, 19, 20, 21, 22, 23, 24, 25, 43, 44, 45, 46, 47] (by decide +kernel) (by decide +kernel)) (goodIn_sub (fun _ h => List.mem_cons_of_mem _ (List.mem_append_right _ h)) (by decide +kernel))
set_option maxRecDepth 20000 in
theorem gX0_errors_X0_placesWithin : GoodIn wsX0_errors (wsV RX0 66 RX0 yX0_placesWithin wsX0_placesWithin) := goodIn_app (goodIn_of _ (by decide +kernel)) ggX0_errors_X0_placesWithin
set_option maxRecDepth 20000 in
theorem ggX0_errors_X0_isUnionOf : GoodIn wsX0_errors wsX0_isUnionOf := goodIn_ca (goodIn_r _ [29, 30, 1, 2, 31, 32, 33, 19, 34, 23, 25, 35, 36, 37, 38, 21, 22, 24, 39, 40, 41, 42, 43, 44, 45, 46, 47] (by decide +kernel) (by decide +kernel)) (goodIn_sub (fun _ h => List.mem_cons_of_mem _ (List.mem_append_right _ h)) (by decide +kernel))
set_option maxRecDepth 20000 in
theorem gX0_errors_X0_isUnionOf : GoodIn wsX0_errors (wsV RX0 70 RX0 yX0_isUnionOf wsX0_isUnionOf) := goodIn_app (goodIn_of _ (by decide +kernel)) ggX0_errors_X0_isUnionOf
theorem dX0_errors_0 : decode cX0_errors 0 = .ok (.aload_n 0, 1) := by decide +kernel
theorem dX0_errors_1 : decode cX0_errors 1 = .ok (.invokevirtual 77, 3) := by decide +kernel
theorem dX0_errors_4 : decode cX0_errors 4 = .ok (.istore_n 1, 1) := by decide +kernel
theorem dX0_errors_5 : decode cX0_errors 5 = .ok (.iconst 0, 1) := by decide +kernel
theorem dX0_errors_6 : decode cX0_errors 6 = .ok (.istore_n 2, 1) := by decide +kernel
theorem dX0_errors_7 : decode cX0_errors 7 = .ok (.iconst 0, 1) := by decide +kernel
theorem dX0_errors_8 : decode cX0_errors 8 = .ok (.istore_n 3, 1) := by decide +kernel
theorem dX0_errors_9 : decode cX0_errors 9 = .ok (.iload_n 3, 1) := by decide +kernel
theorem dX0_errors_10 : decode cX0_errors 10 = .ok (.aload_n 0, 1) := by decide +kernel
theorem dX0_errors_11 : decode cX0_errors 11 = .ok (.getfield 22, 3) := by decide +kernel
theorem dX0_errors_14 : decode cX0_errors 14 = .ok (.if_icmp .ge 75, 3) := by decide +kernel
theorem dX0_errors_17 : decode cX0_errors 17 = .ok (.aload_n 0, 1) := by decide +kernel
theorem dX0_errors_18 : decode cX0_errors 18 = .ok (.iload_n 1, 1) := by decide +kernel
theorem dX0_errors_19 : decode cX0_errors 19 = .ok (.aload_n 0, 1) := by decide +kernel
theorem dX0_errors_20 : decode cX0_errors 20 = .ok (.getfield 11, 3) := by decide +kernel
theorem dX0_errors_23 : decode cX0_errors 23 = .ok (.iload_n 3, 1) := by decide +kernel
theorem dX0_errors_24 : decode cX0_errors 24 = .ok (.aaload, 1) := by decide +kernel
theorem dX0_errors_25 : decode cX0_errors 25 = .ok (.invokevirtual 66, 3) := by decide +kernel
theorem dX0_errors_28 : decode cX0_errors 28 = .ok (.istore 4, 2) := by decide +kernel
theorem dX0_errors_30 : decode cX0_errors 30 = .ok (.aload_n 0, 1) := by decide +kernel
theorem dX0_errors_31 : decode cX0_errors 31 = .ok (.iload_n 3, 1) := by decide +kernel
theorem dX0_errors_32 : decode cX0_errors 32 = .ok (.iload 4, 2) := by decide +kernel
theorem dX0_errors_34 : decode cX0_errors 34 = .ok (.invokevirtual 70, 3) := by decide +kernel
theorem dX0_errors_37 : decode cX0_errors 37 = .ok (.ifCond .ne 6, 3) := by decide +kernel
theorem dX0_errors_40 : decode cX0_errors 40 = .ok (.iinc 2 1, 3) := by decide +kernel
theorem dX0_errors_43 : decode cX0_errors 43 = .ok (.iload_n 3, 1) := by decide +kernel
theorem dX0_errors_44 : decode cX0_errors 44 = .ok (.iconst 1, 1) := by decide +kernel
theorem dX0_errors_45 : decode cX0_errors 45 = .ok (.iadd, 1) := by decide +kernel
theorem dX0_errors_46 : decode cX0_errors 46 = .ok (.istore 5, 2) := by decide +kernel
theorem dX0_errors_48 : decode cX0_errors 48 = .ok (.iload 5, 2) := by decide +kernel
theorem dX0_errors_50 : decode cX0_errors 50 = .ok (.aload_n 0, 1) := by decide +kernel
theorem dX0_errors_51 : decode cX0_errors 51 = .ok (.getfield 22, 3) := by decide +kernel
theorem dX0_errors_54 : decode cX0_errors 54 = .ok (.if_icmp .ge 29, 3) := by decide +kernel
theorem dX0_errors_57 : decode cX0_errors 57 = .ok (.iload 4, 2) := by decide +kernel
theorem dX0_errors_59 : decode cX0_errors 59 = .ok (.aload_n 0, 1) := by decide +kernel
theorem dX0_errors_60 : decode cX0_errors 60 = .ok (.iload_n 1, 1) := by decide +kernel
theorem dX0_errors_61 : decode cX0_errors 61 = .ok (.aload_n 0, 1) := by decide +kernel
theorem dX0_errors_62 : decode cX0_errors 62 = .ok (.getfield 11, 3) := by decide +kernel
theorem dX0_errors_65 : decode cX0_errors 65 = .ok (.iload 5, 2) := by decide +kernel
theorem dX0_errors_67 : decode cX0_errors 67 = .ok (.aaload, 1) := by decide +kernel
theorem dX0_errors_68 : decode cX0_errors 68 = .ok (.invokevirtual 66, 3) := by decide +kernel
theorem dX0_errors_71 : decode cX0_errors 71 = .ok (.if_icmp .ne 6, 3) := by decide +kernel
theorem dX0_errors_74 : decode cX0_errors 74 = .ok (.iinc 2 1, 3) := by decide +kernel
theorem dX0_errors_77 : decode cX0_errors 77 = .ok (.iinc 5 1, 3) := by decide +kernel
theorem dX0_errors_80 : decode cX0_errors 80 = .ok (.goto (-32), 3) := by decide +kernel
theorem dX0_errors_83 : decode cX0_errors 83 = .ok (.iinc 3 1, 3) := by decide +kernel
theorem dX0_errors_86 : decode cX0_errors 86 = .ok (.goto (-77), 3) := by decide +kernel
theorem dX0_errors_89 : decode cX0_errors 89 = .ok (.iload_n 2, 1) := by decide +kernel
theorem dX0_errors_90 : decode cX0_errors 90 = .ok (.ireturn, 1) := by decide +kernel
set_option maxRecDepth 20000 in
theorem ggX1_init_X2_init : GoodIn wsX1_init wsX2_init := goodIn_r _ [12, 13, 2, 3, 14, 15, 16, 17] (by decide +kernel) (by decide +kernel)
set_option maxRecDepth 20000 in
theorem gX1_init_X2_init : GoodIn wsX1_init (wsX2_init) := ggX1_init_X2_init
theorem dX1_init_0 : decode cX1_init 0 = .ok (.aload_n 0, 1) := by decide +kernel
theorem dX1_init_1 : decode cX1_init 1 = .ok (.invokespecial 3, 3) := by decide +kernel
theorem dX1_init_4 : decode cX1_init 4 = .ok (.aload_n 0, 1) := by decide +kernel
theorem dX1_init_5 : decode cX1_init 5 = .ok (.new 9, 3) := by decide +kernel
theorem dX1_init_8 : decode cX1_init 8 = .ok (.dup, 1) := by decide +kernel
theorem dX1_init_9 : decode cX1_init 9 = .ok (.invokespecial 11, 3) := by decide +kernel
theorem dX1_init_12 : decode cX1_init 12 = .ok (.putfield 12, 3) := by decide +kernel
theorem dX1_init_15 : decode cX1_init 15 = .ok (.aload_n 0, 1) := by decide +kernel
theorem dX1_init_16 : decode cX1_init 16 = .ok (.new 9, 3) := by decide +kernel
theorem dX1_init_19 : decode cX1_init 19 = .ok (.dup, 1) := by decide +kernel
theorem dX1_init_20 : decode cX1_init 20 = .ok (.invokespecial 11, 3) := by decide +kernel
theorem dX1_init_23 : decode cX1_init 23 = .ok (.putfield 18, 3) := by decide +kernel
theorem dX1_init_26 : decode cX1_init 26 = .ok (.aload_n 0, 1) := by decide +kernel
theorem dX1_init_27 : decode cX1_init 27 = .ok (.new 9, 3) := by decide +kernel
theorem dX1_init_30 : decode cX1_init 30 = .ok (.dup, 1) := by decide +kernel
theorem dX1_init_31 : decode cX1_init 31 = .ok (.invokespecial 11, 3) := by decide +kernel
theorem dX1_init_34 : decode cX1_init 34 = .ok (.putfield 21, 3) := by decide +kernel
theorem dX1_init_37 : decode cX1_init 37 = .ok (.return_, 1) := by decide +kernel
set_option maxRecDepth 20000 in
theorem ggX1_errorsEachWay_X1_errorsOf : GoodIn wsX1_errorsEachWay wsX1_errorsOf := goodIn_ca (goodIn_r _ [5, 6, 7, 8, 4, 9, 10, 11, 12, 13, 14, 15, 16, 17, 18, 19, 20, 21, 22, 23, 24, 25, 26, 27, 28, 29, 30, 31, 32, 33, 34, 35, 36, 37, 38, 39, 40, 41, 42, 43, 44, 45, 46, 47, 48, 49, 50, 51, 52, 53, 54, 55, 56, 57, 58, 59, 60, 61, 62, 63, 64, 65, 66, 67, 68, 69, 70, 71, 72, 73, 74, 75, 76, 77, 78, 79, 80, 81] (by decide +kernel) (by decide +kernel)) (goodIn_sub (fun _ h => List.mem_cons_of_mem _ (List.mem_append_right _ h)) (by decide +kernel))
set_option maxRecDepth 20000 in
theorem gX1_errorsEachWay_X1_errorsOf : GoodIn wsX1_errorsEachWay (wsV RX1 24 RX1 yX1_errorsOf wsX1_errorsOf) := goodIn_app (goodIn_of _ (by decide +kernel)) ggX1_errorsEachWay_X1_errorsOf
theorem dX1_errorsEachWay_0 : decode cX1_errorsEachWay 0 = .ok (.aload_n 0, 1) := by decide +kernel
theorem dX1_errorsEachWay_1 : decode cX1_errorsEachWay 1 = .ok (.aload_n 1, 1) := by decide +kernel
theorem dX1_errorsEachWay_2 : decode cX1_errorsEachWay 2 = .ok (.aload_n 2, 1) := by decide +kernel
theorem dX1_errorsEachWay_3 : decode cX1_errorsEachWay 3 = .ok (.aload_n 3, 1) := by decide +kernel
theorem dX1_errorsEachWay_4 : decode cX1_errorsEachWay 4 = .ok (.invokevirtual 24, 3) := by decide +kernel
theorem dX1_errorsEachWay_7 : decode cX1_errorsEachWay 7 = .ok (.aload_n 0, 1) := by decide +kernel
theorem dX1_errorsEachWay_8 : decode cX1_errorsEachWay 8 = .ok (.aload_n 1, 1) := by decide +kernel
theorem dX1_errorsEachWay_9 : decode cX1_errorsEachWay 9 = .ok (.aload_n 3, 1) := by decide +kernel
theorem dX1_errorsEachWay_10 : decode cX1_errorsEachWay 10 = .ok (.aload_n 2, 1) := by decide +kernel
theorem dX1_errorsEachWay_11 : decode cX1_errorsEachWay 11 = .ok (.invokevirtual 24, 3) := by decide +kernel
theorem dX1_errorsEachWay_14 : decode cX1_errorsEachWay 14 = .ok (.iadd, 1) := by decide +kernel
theorem dX1_errorsEachWay_15 : decode cX1_errorsEachWay 15 = .ok (.aload_n 0, 1) := by decide +kernel
theorem dX1_errorsEachWay_16 : decode cX1_errorsEachWay 16 = .ok (.aload_n 2, 1) := by decide +kernel
theorem dX1_errorsEachWay_17 : decode cX1_errorsEachWay 17 = .ok (.aload_n 1, 1) := by decide +kernel
theorem dX1_errorsEachWay_18 : decode cX1_errorsEachWay 18 = .ok (.aload_n 3, 1) := by decide +kernel
theorem dX1_errorsEachWay_19 : decode cX1_errorsEachWay 19 = .ok (.invokevirtual 24, 3) := by decide +kernel
theorem dX1_errorsEachWay_22 : decode cX1_errorsEachWay 22 = .ok (.iadd, 1) := by decide +kernel
theorem dX1_errorsEachWay_23 : decode cX1_errorsEachWay 23 = .ok (.aload_n 0, 1) := by decide +kernel
theorem dX1_errorsEachWay_24 : decode cX1_errorsEachWay 24 = .ok (.aload_n 2, 1) := by decide +kernel
theorem dX1_errorsEachWay_25 : decode cX1_errorsEachWay 25 = .ok (.aload_n 3, 1) := by decide +kernel
theorem dX1_errorsEachWay_26 : decode cX1_errorsEachWay 26 = .ok (.aload_n 1, 1) := by decide +kernel
theorem dX1_errorsEachWay_27 : decode cX1_errorsEachWay 27 = .ok (.invokevirtual 24, 3) := by decide +kernel
theorem dX1_errorsEachWay_30 : decode cX1_errorsEachWay 30 = .ok (.iadd, 1) := by decide +kernel
theorem dX1_errorsEachWay_31 : decode cX1_errorsEachWay 31 = .ok (.aload_n 0, 1) := by decide +kernel
theorem dX1_errorsEachWay_32 : decode cX1_errorsEachWay 32 = .ok (.aload_n 3, 1) := by decide +kernel
theorem dX1_errorsEachWay_33 : decode cX1_errorsEachWay 33 = .ok (.aload_n 1, 1) := by decide +kernel
theorem dX1_errorsEachWay_34 : decode cX1_errorsEachWay 34 = .ok (.aload_n 2, 1) := by decide +kernel
theorem dX1_errorsEachWay_35 : decode cX1_errorsEachWay 35 = .ok (.invokevirtual 24, 3) := by decide +kernel
theorem dX1_errorsEachWay_38 : decode cX1_errorsEachWay 38 = .ok (.iadd, 1) := by decide +kernel
theorem dX1_errorsEachWay_39 : decode cX1_errorsEachWay 39 = .ok (.aload_n 0, 1) := by decide +kernel
theorem dX1_errorsEachWay_40 : decode cX1_errorsEachWay 40 = .ok (.aload_n 3, 1) := by decide +kernel
theorem dX1_errorsEachWay_41 : decode cX1_errorsEachWay 41 = .ok (.aload_n 2, 1) := by decide +kernel
theorem dX1_errorsEachWay_42 : decode cX1_errorsEachWay 42 = .ok (.aload_n 1, 1) := by decide +kernel
theorem dX1_errorsEachWay_43 : decode cX1_errorsEachWay 43 = .ok (.invokevirtual 24, 3) := by decide +kernel
theorem dX1_errorsEachWay_46 : decode cX1_errorsEachWay 46 = .ok (.iadd, 1) := by decide +kernel
theorem dX1_errorsEachWay_47 : decode cX1_errorsEachWay 47 = .ok (.ireturn, 1) := by decide +kernel
set_option maxRecDepth 20000 in
theorem ggX1_errorsOf_X1_orderErrors : GoodIn wsX1_errorsOf wsX1_orderErrors := goodIn_ca (goodIn_r _ [5, 6, 7, 8, 9, 4, 10, 11, 12, 13, 14, 15, 16, 17, 18, 19, 20, 21, 22, 23, 24, 25, 26, 27, 28, 29, 30, 31, 32, 73, 74, 75, 76, 77] (by decide +kernel) (by decide +kernel)) (goodIn_sub (fun _ h => List.mem_cons_of_mem _ (List.mem_append_right _ h)) (by decide +kernel))
set_option maxRecDepth 20000 in
theorem gX1_errorsOf_X1_orderErrors : GoodIn wsX1_errorsOf (wsV RX1 28 RX1 yX1_orderErrors wsX1_orderErrors) := goodIn_app (goodIn_of _ (by decide +kernel)) ggX1_errorsOf_X1_orderErrors
set_option maxRecDepth 20000 in
theorem ggX1_errorsOf_X1_bracketErrors : GoodIn wsX1_errorsOf wsX1_bracketErrors := goodIn_ca (goodIn_r _ [36, 6, 37, 7, 8, 9, 4, 10, 11, 12, 13, 14, 15, 16, 17, 18, 19, 20, 21, 22, 23, 24, 25, 26, 27, 28, 29, 30, 31, 32, 73, 74, 75, 76, 77] (by decide +kernel) (by decide +kernel)) (goodIn_sub (fun _ h => List.mem_cons_of_mem _ (List.mem_append_right _ h)) (by decide +kernel))
set_option maxRecDepth 20000 in
theorem gX1_errorsOf_X1_bracketErrors : GoodIn wsX1_errorsOf (wsV RX1 32 RX1 yX1_bracketErrors wsX1_bracketErrors) := goodIn_app (goodIn_of _ (by decide +kernel)) ggX1_errorsOf_X1_bracketErrors
set_option maxRecDepth 20000 in
theorem ggX1_errorsOf_X1_itselfErrors : GoodIn wsX1_errorsOf wsX1_itselfErrors := goodIn_ca (goodIn_r _ [41, 6, 7, 37, 8, 9, 4, 10, 11, 12, 13, 14, 15, 16, 17, 18, 19, 20, 21, 22, 23, 24, 29, 30, 31, 32, 42, 43, 44, 45, 46, 47, 48, 49, 50, 51, 52, 73, 74, 75, 76, 77] (by decide +kernel) (by decide +kernel)) (goodIn_sub (fun _ h => List.mem_cons_of_mem _ (List.mem_append_right _ h)) (by decide +kernel))
set_option maxRecDepth 20000 in
theorem gX1_errorsOf_X1_itselfErrors : GoodIn wsX1_errorsOf (wsV RX1 36 RX1 yX1_itselfErrors wsX1_itselfErrors) := goodIn_app (goodIn_of _ (by decide +kernel)) ggX1_errorsOf_X1_itselfErrors
set_option maxRecDepth 20000 in
theorem ggX1_errorsOf_X1_partErrors : GoodIn wsX1_errorsOf wsX1_partErrors := goodIn_ca (goodIn_r _ [56, 37, 6, 7, 8, 9, 4, 10, 11, 12, 13, 14, 15, 16, 17, 18, 19, 20, 21, 22, 23, 24, 25, 26, 27, 28, 29, 30, 31, 32, 73, 74, 75, 76, 77] (by decide +kernel) (by decide +kernel)) (goodIn_sub (fun _ h => List.mem_cons_of_mem _ (List.mem_append_right _ h)) (by decide +kernel))
set_option maxRecDepth 20000 in
theorem gX1_errorsOf_X1_partErrors : GoodIn wsX1_errorsOf (wsV RX1 40 RX1 yX1_partErrors wsX1_partErrors) := goodIn_app (goodIn_of _ (by decide +kernel)) ggX1_errorsOf_X1_partErrors
set_option maxRecDepth 20000 in
theorem ggX1_errorsOf_X1_withoutErrors : GoodIn wsX1_errorsOf wsX1_withoutErrors := goodIn_ca (goodIn_r _ [60, 37, 6, 7, 8, 9, 4, 10, 11, 12, 13, 14, 15, 16, 17, 18, 19, 20, 21, 22, 23, 24, 25, 26, 27, 28, 29, 30, 31, 32, 73, 74, 75, 76, 77] (by decide +kernel) (by decide +kernel)) (goodIn_sub (fun _ h => List.mem_cons_of_mem _ (List.mem_append_right _ h)) (by decide +kernel))
set_option maxRecDepth 20000 in
theorem gX1_errorsOf_X1_withoutErrors : GoodIn wsX1_errorsOf (wsV RX1 44 RX1 yX1_withoutErrors wsX1_withoutErrors) := goodIn_app (goodIn_of _ (by decide +kernel)) ggX1_errorsOf_X1_withoutErrors
set_option maxRecDepth 20000 in
theorem ggX1_errorsOf_X1_withinErrors : GoodIn wsX1_errorsOf wsX1_withinErrors := goodIn_ca (goodIn_r _ [64, 6, 7, 37, 65, 66, 67, 14, 68, 22, 23, 16, 24, 17, 8, 9, 4, 10, 11, 12, 13, 15, 18, 19, 20, 21, 29, 30, 31, 32, 42, 43, 44, 45, 46, 47, 48, 49, 50, 51, 52, 73, 74, 75, 76, 77] (by decide +kernel) (by decide +kernel)) (goodIn_sub (fun _ h => List.mem_cons_of_mem _ (List.mem_append_right _ h)) (by decide +kernel))
set_option maxRecDepth 20000 in
theorem gX1_errorsOf_X1_withinErrors : GoodIn wsX1_errorsOf (wsV RX1 47 RX1 yX1_withinErrors wsX1_withinErrors) := goodIn_app (goodIn_of _ (by decide +kernel)) ggX1_errorsOf_X1_withinErrors
set_option maxRecDepth 20000 in
theorem ggX1_errorsOf_X1_sizeErrors : GoodIn wsX1_errorsOf wsX1_sizeErrors := goodIn_ca (goodIn_r _ [72, 6, 7, 8, 9, 4, 10, 11, 12, 13, 14, 15, 16, 17, 18, 19, 20, 21, 22, 23, 24, 42, 43, 44, 45, 46, 47, 48, 49, 50, 51, 52, 73, 74, 75, 76, 77] (by decide +kernel) (by decide +kernel)) (goodIn_sub (fun _ h => List.mem_cons_of_mem _ (List.mem_append_right _ h)) (by decide +kernel))
set_option maxRecDepth 20000 in
theorem gX1_errorsOf_X1_sizeErrors : GoodIn wsX1_errorsOf (wsV RX1 51 RX1 yX1_sizeErrors wsX1_sizeErrors) := goodIn_app (goodIn_of _ (by decide +kernel)) ggX1_errorsOf_X1_sizeErrors
theorem dX1_errorsOf_0 : decode cX1_errorsOf 0 = .ok (.aload_n 0, 1) := by decide +kernel
theorem dX1_errorsOf_1 : decode cX1_errorsOf 1 = .ok (.iconst 0, 1) := by decide +kernel
theorem dX1_errorsOf_2 : decode cX1_errorsOf 2 = .ok (.aload_n 1, 1) := by decide +kernel
theorem dX1_errorsOf_3 : decode cX1_errorsOf 3 = .ok (.aload_n 2, 1) := by decide +kernel
theorem dX1_errorsOf_4 : decode cX1_errorsOf 4 = .ok (.invokevirtual 28, 3) := by decide +kernel
theorem dX1_errorsOf_7 : decode cX1_errorsOf 7 = .ok (.aload_n 0, 1) := by decide +kernel
theorem dX1_errorsOf_8 : decode cX1_errorsOf 8 = .ok (.iconst 1, 1) := by decide +kernel
theorem dX1_errorsOf_9 : decode cX1_errorsOf 9 = .ok (.aload_n 1, 1) := by decide +kernel
theorem dX1_errorsOf_10 : decode cX1_errorsOf 10 = .ok (.aload_n 2, 1) := by decide +kernel
theorem dX1_errorsOf_11 : decode cX1_errorsOf 11 = .ok (.invokevirtual 28, 3) := by decide +kernel
theorem dX1_errorsOf_14 : decode cX1_errorsOf 14 = .ok (.iadd, 1) := by decide +kernel
theorem dX1_errorsOf_15 : decode cX1_errorsOf 15 = .ok (.aload_n 0, 1) := by decide +kernel
theorem dX1_errorsOf_16 : decode cX1_errorsOf 16 = .ok (.iconst 0, 1) := by decide +kernel
theorem dX1_errorsOf_17 : decode cX1_errorsOf 17 = .ok (.aload_n 1, 1) := by decide +kernel
theorem dX1_errorsOf_18 : decode cX1_errorsOf 18 = .ok (.aload_n 2, 1) := by decide +kernel
theorem dX1_errorsOf_19 : decode cX1_errorsOf 19 = .ok (.aload_n 3, 1) := by decide +kernel
theorem dX1_errorsOf_20 : decode cX1_errorsOf 20 = .ok (.invokevirtual 32, 3) := by decide +kernel
theorem dX1_errorsOf_23 : decode cX1_errorsOf 23 = .ok (.iadd, 1) := by decide +kernel
theorem dX1_errorsOf_24 : decode cX1_errorsOf 24 = .ok (.aload_n 0, 1) := by decide +kernel
theorem dX1_errorsOf_25 : decode cX1_errorsOf 25 = .ok (.iconst 1, 1) := by decide +kernel
theorem dX1_errorsOf_26 : decode cX1_errorsOf 26 = .ok (.aload_n 1, 1) := by decide +kernel
theorem dX1_errorsOf_27 : decode cX1_errorsOf 27 = .ok (.aload_n 2, 1) := by decide +kernel
theorem dX1_errorsOf_28 : decode cX1_errorsOf 28 = .ok (.aload_n 3, 1) := by decide +kernel
theorem dX1_errorsOf_29 : decode cX1_errorsOf 29 = .ok (.invokevirtual 32, 3) := by decide +kernel
theorem dX1_errorsOf_32 : decode cX1_errorsOf 32 = .ok (.iadd, 1) := by decide +kernel
theorem dX1_errorsOf_33 : decode cX1_errorsOf 33 = .ok (.aload_n 0, 1) := by decide +kernel
theorem dX1_errorsOf_34 : decode cX1_errorsOf 34 = .ok (.aload_n 1, 1) := by decide +kernel
theorem dX1_errorsOf_35 : decode cX1_errorsOf 35 = .ok (.invokevirtual 36, 3) := by decide +kernel
theorem dX1_errorsOf_38 : decode cX1_errorsOf 38 = .ok (.iadd, 1) := by decide +kernel
theorem dX1_errorsOf_39 : decode cX1_errorsOf 39 = .ok (.aload_n 0, 1) := by decide +kernel
theorem dX1_errorsOf_40 : decode cX1_errorsOf 40 = .ok (.iconst 0, 1) := by decide +kernel
theorem dX1_errorsOf_41 : decode cX1_errorsOf 41 = .ok (.iconst 1, 1) := by decide +kernel
theorem dX1_errorsOf_42 : decode cX1_errorsOf 42 = .ok (.aload_n 1, 1) := by decide +kernel
theorem dX1_errorsOf_43 : decode cX1_errorsOf 43 = .ok (.aload_n 2, 1) := by decide +kernel
theorem dX1_errorsOf_44 : decode cX1_errorsOf 44 = .ok (.aload_n 3, 1) := by decide +kernel
theorem dX1_errorsOf_45 : decode cX1_errorsOf 45 = .ok (.invokevirtual 40, 3) := by decide +kernel
theorem dX1_errorsOf_48 : decode cX1_errorsOf 48 = .ok (.iadd, 1) := by decide +kernel
theorem dX1_errorsOf_49 : decode cX1_errorsOf 49 = .ok (.aload_n 0, 1) := by decide +kernel
theorem dX1_errorsOf_50 : decode cX1_errorsOf 50 = .ok (.iconst 1, 1) := by decide +kernel
theorem dX1_errorsOf_51 : decode cX1_errorsOf 51 = .ok (.iconst 0, 1) := by decide +kernel
theorem dX1_errorsOf_52 : decode cX1_errorsOf 52 = .ok (.aload_n 1, 1) := by decide +kernel
theorem dX1_errorsOf_53 : decode cX1_errorsOf 53 = .ok (.aload_n 2, 1) := by decide +kernel
theorem dX1_errorsOf_54 : decode cX1_errorsOf 54 = .ok (.aload_n 3, 1) := by decide +kernel
theorem dX1_errorsOf_55 : decode cX1_errorsOf 55 = .ok (.invokevirtual 40, 3) := by decide +kernel
theorem dX1_errorsOf_58 : decode cX1_errorsOf 58 = .ok (.iadd, 1) := by decide +kernel
theorem dX1_errorsOf_59 : decode cX1_errorsOf 59 = .ok (.aload_n 0, 1) := by decide +kernel
theorem dX1_errorsOf_60 : decode cX1_errorsOf 60 = .ok (.iconst 0, 1) := by decide +kernel
theorem dX1_errorsOf_61 : decode cX1_errorsOf 61 = .ok (.iconst 1, 1) := by decide +kernel
theorem dX1_errorsOf_62 : decode cX1_errorsOf 62 = .ok (.aload_n 1, 1) := by decide +kernel
theorem dX1_errorsOf_63 : decode cX1_errorsOf 63 = .ok (.aload_n 2, 1) := by decide +kernel
theorem dX1_errorsOf_64 : decode cX1_errorsOf 64 = .ok (.aload_n 3, 1) := by decide +kernel
theorem dX1_errorsOf_65 : decode cX1_errorsOf 65 = .ok (.invokevirtual 44, 3) := by decide +kernel
theorem dX1_errorsOf_68 : decode cX1_errorsOf 68 = .ok (.iadd, 1) := by decide +kernel
theorem dX1_errorsOf_69 : decode cX1_errorsOf 69 = .ok (.aload_n 0, 1) := by decide +kernel
theorem dX1_errorsOf_70 : decode cX1_errorsOf 70 = .ok (.iconst 1, 1) := by decide +kernel
theorem dX1_errorsOf_71 : decode cX1_errorsOf 71 = .ok (.iconst 0, 1) := by decide +kernel
theorem dX1_errorsOf_72 : decode cX1_errorsOf 72 = .ok (.aload_n 1, 1) := by decide +kernel
theorem dX1_errorsOf_73 : decode cX1_errorsOf 73 = .ok (.aload_n 2, 1) := by decide +kernel
theorem dX1_errorsOf_74 : decode cX1_errorsOf 74 = .ok (.aload_n 3, 1) := by decide +kernel
theorem dX1_errorsOf_75 : decode cX1_errorsOf 75 = .ok (.invokevirtual 44, 3) := by decide +kernel
theorem dX1_errorsOf_78 : decode cX1_errorsOf 78 = .ok (.iadd, 1) := by decide +kernel
theorem dX1_errorsOf_79 : decode cX1_errorsOf 79 = .ok (.aload_n 0, 1) := by decide +kernel
theorem dX1_errorsOf_80 : decode cX1_errorsOf 80 = .ok (.aload_n 1, 1) := by decide +kernel
theorem dX1_errorsOf_81 : decode cX1_errorsOf 81 = .ok (.aload_n 2, 1) := by decide +kernel
theorem dX1_errorsOf_82 : decode cX1_errorsOf 82 = .ok (.invokevirtual 47, 3) := by decide +kernel
theorem dX1_errorsOf_85 : decode cX1_errorsOf 85 = .ok (.iadd, 1) := by decide +kernel
theorem dX1_errorsOf_86 : decode cX1_errorsOf 86 = .ok (.aload_n 0, 1) := by decide +kernel
theorem dX1_errorsOf_87 : decode cX1_errorsOf 87 = .ok (.aload_n 1, 1) := by decide +kernel
theorem dX1_errorsOf_88 : decode cX1_errorsOf 88 = .ok (.aload_n 2, 1) := by decide +kernel
theorem dX1_errorsOf_89 : decode cX1_errorsOf 89 = .ok (.aload_n 3, 1) := by decide +kernel
theorem dX1_errorsOf_90 : decode cX1_errorsOf 90 = .ok (.invokevirtual 51, 3) := by decide +kernel
theorem dX1_errorsOf_93 : decode cX1_errorsOf 93 = .ok (.iadd, 1) := by decide +kernel
theorem dX1_errorsOf_94 : decode cX1_errorsOf 94 = .ok (.ireturn, 1) := by decide +kernel
set_option maxRecDepth 20000 in
theorem ggX1_orderErrors_X1_make : GoodIn wsX1_orderErrors wsX1_make := goodIn_ca (goodIn_r _ [6, 7, 8, 9, 10, 11, 12, 13, 14, 15, 16, 17, 18, 19, 20, 32, 33] (by decide +kernel) (by decide +kernel)) (goodIn_sub (fun _ h => List.mem_cons_of_mem _ (List.mem_append_right _ h)) (by decide +kernel))
set_option maxRecDepth 20000 in
theorem gX1_orderErrors_X1_make : GoodIn wsX1_orderErrors (va_wsS RX1 54 yX1_make wsX1_make) := goodIn_app (goodIn_of _ (by decide +kernel)) ggX1_orderErrors_X1_make
set_option maxRecDepth 20000 in
theorem ggX1_orderErrors_X1_sidesDiffer : GoodIn wsX1_orderErrors wsX1_sidesDiffer := goodIn_r _ [24, 1, 2, 25, 26, 27, 10, 28, 12, 13, 29, 30, 31, 32, 33] (by decide +kernel) (by decide +kernel)
set_option maxRecDepth 20000 in
theorem gX1_orderErrors_X1_sidesDiffer : GoodIn wsX1_orderErrors (wsV RX1 58 RX1 yX1_sidesDiffer wsX1_sidesDiffer) := goodIn_app (goodIn_of _ (by decide +kernel)) ggX1_orderErrors_X1_sidesDiffer
theorem dX1_orderErrors_0 : decode cX1_orderErrors 0 = .ok (.aload_n 0, 1) := by decide +kernel
theorem dX1_orderErrors_1 : decode cX1_orderErrors 1 = .ok (.getfield 12, 3) := by decide +kernel
theorem dX1_orderErrors_4 : decode cX1_orderErrors 4 = .ok (.iload_n 1, 1) := by decide +kernel
theorem dX1_orderErrors_5 : decode cX1_orderErrors 5 = .ok (.aload_n 2, 1) := by decide +kernel
theorem dX1_orderErrors_6 : decode cX1_orderErrors 6 = .ok (.aload_n 3, 1) := by decide +kernel
theorem dX1_orderErrors_7 : decode cX1_orderErrors 7 = .ok (.invokestatic 54, 3) := by decide +kernel
theorem dX1_orderErrors_10 : decode cX1_orderErrors 10 = .ok (.aload_n 0, 1) := by decide +kernel
theorem dX1_orderErrors_11 : decode cX1_orderErrors 11 = .ok (.getfield 18, 3) := by decide +kernel
theorem dX1_orderErrors_14 : decode cX1_orderErrors 14 = .ok (.iload_n 1, 1) := by decide +kernel
theorem dX1_orderErrors_15 : decode cX1_orderErrors 15 = .ok (.aload_n 3, 1) := by decide +kernel
theorem dX1_orderErrors_16 : decode cX1_orderErrors 16 = .ok (.aload_n 2, 1) := by decide +kernel
theorem dX1_orderErrors_17 : decode cX1_orderErrors 17 = .ok (.invokestatic 54, 3) := by decide +kernel
theorem dX1_orderErrors_20 : decode cX1_orderErrors 20 = .ok (.aload_n 0, 1) := by decide +kernel
theorem dX1_orderErrors_21 : decode cX1_orderErrors 21 = .ok (.invokevirtual 58, 3) := by decide +kernel
theorem dX1_orderErrors_24 : decode cX1_orderErrors 24 = .ok (.ireturn, 1) := by decide +kernel
set_option maxRecDepth 20000 in
theorem ggX1_bracketErrors_X1_make : GoodIn wsX1_bracketErrors wsX1_make := goodIn_ca (goodIn_r _ [7, 8, 9, 10, 11, 12, 13, 14, 15, 16, 17, 18, 19, 20, 21, 33, 34] (by decide +kernel) (by decide +kernel)) (goodIn_sub (fun _ h => List.mem_cons_of_mem _ (List.mem_append_right _ h)) (by decide +kernel))
set_option maxRecDepth 20000 in
theorem gX1_bracketErrors_X1_make : GoodIn wsX1_bracketErrors (va_wsS RX1 54 yX1_make wsX1_make) := goodIn_app (goodIn_of _ (by decide +kernel)) ggX1_bracketErrors_X1_make
set_option maxRecDepth 20000 in
theorem ggX1_bracketErrors_X2_combine : GoodIn wsX1_bracketErrors wsX2_combine := goodIn_ca (goodIn_r _ [18, 19, 20, 13, 14, 21, 33, 34] (by decide +kernel) (by decide +kernel)) (goodIn_sub (fun _ h => List.mem_cons_of_mem _ (List.mem_append_right _ h)) (by decide +kernel))
set_option maxRecDepth 20000 in
theorem gX1_bracketErrors_X2_combine : GoodIn wsX1_bracketErrors (wsV RX1 62 RX2 yX2_combine wsX2_combine) := goodIn_app (goodIn_of _ (by decide +kernel)) ggX1_bracketErrors_X2_combine
set_option maxRecDepth 20000 in
theorem ggX1_bracketErrors_X1_sidesDiffer : GoodIn wsX1_bracketErrors wsX1_sidesDiffer := goodIn_r _ [25, 1, 3, 26, 27, 28, 11, 29, 13, 14, 30, 31, 32, 33, 34] (by decide +kernel) (by decide +kernel)
set_option maxRecDepth 20000 in
theorem gX1_bracketErrors_X1_sidesDiffer : GoodIn wsX1_bracketErrors (wsV RX1 58 RX1 yX1_sidesDiffer wsX1_sidesDiffer) := goodIn_app (goodIn_of _ (by decide +kernel)) ggX1_bracketErrors_X1_sidesDiffer
theorem dX1_bracketErrors_0 : decode cX1_bracketErrors 0 = .ok (.aload_n 0, 1) := by decide +kernel
theorem dX1_bracketErrors_1 : decode cX1_bracketErrors 1 = .ok (.getfield 12, 3) := by decide +kernel
theorem dX1_bracketErrors_4 : decode cX1_bracketErrors 4 = .ok (.iload_n 1, 1) := by decide +kernel
theorem dX1_bracketErrors_5 : decode cX1_bracketErrors 5 = .ok (.aload_n 2, 1) := by decide +kernel
theorem dX1_bracketErrors_6 : decode cX1_bracketErrors 6 = .ok (.aload_n 3, 1) := by decide +kernel
theorem dX1_bracketErrors_7 : decode cX1_bracketErrors 7 = .ok (.invokestatic 54, 3) := by decide +kernel
theorem dX1_bracketErrors_10 : decode cX1_bracketErrors 10 = .ok (.aload_n 0, 1) := by decide +kernel
theorem dX1_bracketErrors_11 : decode cX1_bracketErrors 11 = .ok (.getfield 12, 3) := by decide +kernel
theorem dX1_bracketErrors_14 : decode cX1_bracketErrors 14 = .ok (.iload_n 1, 1) := by decide +kernel
theorem dX1_bracketErrors_15 : decode cX1_bracketErrors 15 = .ok (.aload 4, 2) := by decide +kernel
theorem dX1_bracketErrors_17 : decode cX1_bracketErrors 17 = .ok (.invokevirtual 62, 3) := by decide +kernel
theorem dX1_bracketErrors_20 : decode cX1_bracketErrors 20 = .ok (.pop, 1) := by decide +kernel
theorem dX1_bracketErrors_21 : decode cX1_bracketErrors 21 = .ok (.aload_n 0, 1) := by decide +kernel
theorem dX1_bracketErrors_22 : decode cX1_bracketErrors 22 = .ok (.getfield 21, 3) := by decide +kernel
theorem dX1_bracketErrors_25 : decode cX1_bracketErrors 25 = .ok (.iload_n 1, 1) := by decide +kernel
theorem dX1_bracketErrors_26 : decode cX1_bracketErrors 26 = .ok (.aload_n 3, 1) := by decide +kernel
theorem dX1_bracketErrors_27 : decode cX1_bracketErrors 27 = .ok (.aload 4, 2) := by decide +kernel
theorem dX1_bracketErrors_29 : decode cX1_bracketErrors 29 = .ok (.invokestatic 54, 3) := by decide +kernel
theorem dX1_bracketErrors_32 : decode cX1_bracketErrors 32 = .ok (.aload_n 0, 1) := by decide +kernel
theorem dX1_bracketErrors_33 : decode cX1_bracketErrors 33 = .ok (.getfield 18, 3) := by decide +kernel
theorem dX1_bracketErrors_36 : decode cX1_bracketErrors 36 = .ok (.iload_n 1, 1) := by decide +kernel
theorem dX1_bracketErrors_37 : decode cX1_bracketErrors 37 = .ok (.aload_n 2, 1) := by decide +kernel
theorem dX1_bracketErrors_38 : decode cX1_bracketErrors 38 = .ok (.aload_n 0, 1) := by decide +kernel
theorem dX1_bracketErrors_39 : decode cX1_bracketErrors 39 = .ok (.getfield 21, 3) := by decide +kernel
theorem dX1_bracketErrors_42 : decode cX1_bracketErrors 42 = .ok (.invokestatic 54, 3) := by decide +kernel
theorem dX1_bracketErrors_45 : decode cX1_bracketErrors 45 = .ok (.aload_n 0, 1) := by decide +kernel
theorem dX1_bracketErrors_46 : decode cX1_bracketErrors 46 = .ok (.invokevirtual 58, 3) := by decide +kernel
theorem dX1_bracketErrors_49 : decode cX1_bracketErrors 49 = .ok (.ireturn, 1) := by decide +kernel
set_option maxRecDepth 20000 in
theorem ggX1_itselfErrors_X1_make : GoodIn wsX1_itselfErrors wsX1_make := goodIn_ca (goodIn_r _ [7, 8, 9, 10, 11, 12, 13, 14, 15, 16, 17, 18, 19, 20, 21, 40, 41] (by decide +kernel) (by decide +kernel)) (goodIn_sub (fun _ h => List.mem_cons_of_mem _ (List.mem_append_right _ h)) (by decide +kernel))
set_option maxRecDepth 20000 in
theorem gX1_itselfErrors_X1_make : GoodIn wsX1_itselfErrors (va_wsS RX1 54 yX1_make wsX1_make) := goodIn_app (goodIn_of _ (by decide +kernel)) ggX1_itselfErrors_X1_make
set_option maxRecDepth 20000 in
theorem ggX1_itselfErrors_X2_sameAs : GoodIn wsX1_itselfErrors wsX2_sameAs := goodIn_r _ [25, 13, 14, 40, 41] (by decide +kernel) (by decide +kernel)
set_option maxRecDepth 20000 in
theorem gX1_itselfErrors_X2_sameAs : GoodIn wsX1_itselfErrors (wsV RX1 66 RX2 yX2_sameAs wsX2_sameAs) := goodIn_app (goodIn_of _ (by decide +kernel)) ggX1_itselfErrors_X2_sameAs
set_option maxRecDepth 20000 in
theorem ggX1_itselfErrors_X2_count : GoodIn wsX1_itselfErrors wsX2_count := goodIn_r _ [29, 13, 14, 30, 31, 32, 33, 34, 35, 36, 40, 41] (by decide +kernel) (by decide +kernel)
set_option maxRecDepth 20000 in
theorem gX1_itselfErrors_X2_count : GoodIn wsX1_itselfErrors (wsV RX1 70 RX2 yX2_count wsX2_count) := goodIn_app (goodIn_of _ (by decide +kernel)) ggX1_itselfErrors_X2_count
theorem dX1_itselfErrors_0 : decode cX1_itselfErrors 0 = .ok (.aload_n 0, 1) := by decide +kernel
theorem dX1_itselfErrors_1 : decode cX1_itselfErrors 1 = .ok (.getfield 12, 3) := by decide +kernel
theorem dX1_itselfErrors_4 : decode cX1_itselfErrors 4 = .ok (.iconst 0, 1) := by decide +kernel
theorem dX1_itselfErrors_5 : decode cX1_itselfErrors 5 = .ok (.aload_n 1, 1) := by decide +kernel
theorem dX1_itselfErrors_6 : decode cX1_itselfErrors 6 = .ok (.aload_n 1, 1) := by decide +kernel
theorem dX1_itselfErrors_7 : decode cX1_itselfErrors 7 = .ok (.invokestatic 54, 3) := by decide +kernel
theorem dX1_itselfErrors_10 : decode cX1_itselfErrors 10 = .ok (.aload_n 0, 1) := by decide +kernel
theorem dX1_itselfErrors_11 : decode cX1_itselfErrors 11 = .ok (.getfield 18, 3) := by decide +kernel
theorem dX1_itselfErrors_14 : decode cX1_itselfErrors 14 = .ok (.iconst 1, 1) := by decide +kernel
theorem dX1_itselfErrors_15 : decode cX1_itselfErrors 15 = .ok (.aload_n 1, 1) := by decide +kernel
theorem dX1_itselfErrors_16 : decode cX1_itselfErrors 16 = .ok (.aload_n 1, 1) := by decide +kernel
theorem dX1_itselfErrors_17 : decode cX1_itselfErrors 17 = .ok (.invokestatic 54, 3) := by decide +kernel
theorem dX1_itselfErrors_20 : decode cX1_itselfErrors 20 = .ok (.aload_n 0, 1) := by decide +kernel
theorem dX1_itselfErrors_21 : decode cX1_itselfErrors 21 = .ok (.getfield 21, 3) := by decide +kernel
theorem dX1_itselfErrors_24 : decode cX1_itselfErrors 24 = .ok (.iconst 2, 1) := by decide +kernel
theorem dX1_itselfErrors_25 : decode cX1_itselfErrors 25 = .ok (.aload_n 1, 1) := by decide +kernel
theorem dX1_itselfErrors_26 : decode cX1_itselfErrors 26 = .ok (.aload_n 1, 1) := by decide +kernel
theorem dX1_itselfErrors_27 : decode cX1_itselfErrors 27 = .ok (.invokestatic 54, 3) := by decide +kernel
theorem dX1_itselfErrors_30 : decode cX1_itselfErrors 30 = .ok (.aload_n 0, 1) := by decide +kernel
theorem dX1_itselfErrors_31 : decode cX1_itselfErrors 31 = .ok (.getfield 12, 3) := by decide +kernel
theorem dX1_itselfErrors_34 : decode cX1_itselfErrors 34 = .ok (.aload_n 1, 1) := by decide +kernel
theorem dX1_itselfErrors_35 : decode cX1_itselfErrors 35 = .ok (.invokevirtual 66, 3) := by decide +kernel
theorem dX1_itselfErrors_38 : decode cX1_itselfErrors 38 = .ok (.ifCond .eq 7, 3) := by decide +kernel
theorem dX1_itselfErrors_41 : decode cX1_itselfErrors 41 = .ok (.iconst 0, 1) := by decide +kernel
theorem dX1_itselfErrors_42 : decode cX1_itselfErrors 42 = .ok (.goto 4, 3) := by decide +kernel
theorem dX1_itselfErrors_45 : decode cX1_itselfErrors 45 = .ok (.iconst 1, 1) := by decide +kernel
theorem dX1_itselfErrors_46 : decode cX1_itselfErrors 46 = .ok (.aload_n 0, 1) := by decide +kernel
theorem dX1_itselfErrors_47 : decode cX1_itselfErrors 47 = .ok (.getfield 18, 3) := by decide +kernel
theorem dX1_itselfErrors_50 : decode cX1_itselfErrors 50 = .ok (.aload_n 1, 1) := by decide +kernel
theorem dX1_itselfErrors_51 : decode cX1_itselfErrors 51 = .ok (.invokevirtual 66, 3) := by decide +kernel
theorem dX1_itselfErrors_54 : decode cX1_itselfErrors 54 = .ok (.ifCond .eq 7, 3) := by decide +kernel
theorem dX1_itselfErrors_57 : decode cX1_itselfErrors 57 = .ok (.iconst 0, 1) := by decide +kernel
theorem dX1_itselfErrors_58 : decode cX1_itselfErrors 58 = .ok (.goto 4, 3) := by decide +kernel
theorem dX1_itselfErrors_61 : decode cX1_itselfErrors 61 = .ok (.iconst 1, 1) := by decide +kernel
theorem dX1_itselfErrors_62 : decode cX1_itselfErrors 62 = .ok (.iadd, 1) := by decide +kernel
theorem dX1_itselfErrors_63 : decode cX1_itselfErrors 63 = .ok (.aload_n 0, 1) := by decide +kernel
theorem dX1_itselfErrors_64 : decode cX1_itselfErrors 64 = .ok (.getfield 21, 3) := by decide +kernel
theorem dX1_itselfErrors_67 : decode cX1_itselfErrors 67 = .ok (.invokevirtual 70, 3) := by decide +kernel
theorem dX1_itselfErrors_70 : decode cX1_itselfErrors 70 = .ok (.ifCond .ne 7, 3) := by decide +kernel
theorem dX1_itselfErrors_73 : decode cX1_itselfErrors 73 = .ok (.iconst 0, 1) := by decide +kernel
theorem dX1_itselfErrors_74 : decode cX1_itselfErrors 74 = .ok (.goto 4, 3) := by decide +kernel
theorem dX1_itselfErrors_77 : decode cX1_itselfErrors 77 = .ok (.iconst 1, 1) := by decide +kernel
theorem dX1_itselfErrors_78 : decode cX1_itselfErrors 78 = .ok (.iadd, 1) := by decide +kernel
theorem dX1_itselfErrors_79 : decode cX1_itselfErrors 79 = .ok (.ireturn, 1) := by decide +kernel
set_option maxRecDepth 20000 in
theorem ggX1_partErrors_X1_make : GoodIn wsX1_partErrors wsX1_make := goodIn_ca (goodIn_r _ [7, 8, 9, 10, 11, 12, 13, 14, 15, 16, 17, 18, 19, 20, 21, 33, 34] (by decide +kernel) (by decide +kernel)) (goodIn_sub (fun _ h => List.mem_cons_of_mem _ (List.mem_append_right _ h)) (by decide +kernel))
set_option maxRecDepth 20000 in
theorem gX1_partErrors_X1_make : GoodIn wsX1_partErrors (va_wsS RX1 54 yX1_make wsX1_make) := goodIn_app (goodIn_of _ (by decide +kernel)) ggX1_partErrors_X1_make
set_option maxRecDepth 20000 in
theorem ggX1_partErrors_X2_combine : GoodIn wsX1_partErrors wsX2_combine := goodIn_ca (goodIn_r _ [18, 19, 20, 13, 14, 21, 33, 34] (by decide +kernel) (by decide +kernel)) (goodIn_sub (fun _ h => List.mem_cons_of_mem _ (List.mem_append_right _ h)) (by decide +kernel))
set_option maxRecDepth 20000 in
theorem gX1_partErrors_X2_combine : GoodIn wsX1_partErrors (wsV RX1 62 RX2 yX2_combine wsX2_combine) := goodIn_app (goodIn_of _ (by decide +kernel)) ggX1_partErrors_X2_combine
set_option maxRecDepth 20000 in
theorem ggX1_partErrors_X1_sidesDiffer : GoodIn wsX1_partErrors wsX1_sidesDiffer := goodIn_r _ [25, 2, 3, 26, 27, 28, 11, 29, 13, 14, 30, 31, 32, 33, 34] (by decide +kernel) (by decide +kernel)
set_option maxRecDepth 20000 in
theorem gX1_partErrors_X1_sidesDiffer : GoodIn wsX1_partErrors (wsV RX1 58 RX1 yX1_sidesDiffer wsX1_sidesDiffer) := goodIn_app (goodIn_of _ (by decide +kernel)) ggX1_partErrors_X1_sidesDiffer
theorem dX1_partErrors_0 : decode cX1_partErrors 0 = .ok (.aload_n 0, 1) := by decide +kernel
theorem dX1_partErrors_1 : decode cX1_partErrors 1 = .ok (.getfield 21, 3) := by decide +kernel
theorem dX1_partErrors_4 : decode cX1_partErrors 4 = .ok (.iload_n 1, 1) := by decide +kernel
theorem dX1_partErrors_5 : decode cX1_partErrors 5 = .ok (.aload 4, 2) := by decide +kernel
theorem dX1_partErrors_7 : decode cX1_partErrors 7 = .ok (.aload 5, 2) := by decide +kernel
theorem dX1_partErrors_9 : decode cX1_partErrors 9 = .ok (.invokestatic 54, 3) := by decide +kernel
theorem dX1_partErrors_12 : decode cX1_partErrors 12 = .ok (.aload_n 0, 1) := by decide +kernel
theorem dX1_partErrors_13 : decode cX1_partErrors 13 = .ok (.getfield 12, 3) := by decide +kernel
theorem dX1_partErrors_16 : decode cX1_partErrors 16 = .ok (.iload_n 2, 1) := by decide +kernel
theorem dX1_partErrors_17 : decode cX1_partErrors 17 = .ok (.aload_n 3, 1) := by decide +kernel
theorem dX1_partErrors_18 : decode cX1_partErrors 18 = .ok (.aload_n 0, 1) := by decide +kernel
theorem dX1_partErrors_19 : decode cX1_partErrors 19 = .ok (.getfield 21, 3) := by decide +kernel
theorem dX1_partErrors_22 : decode cX1_partErrors 22 = .ok (.invokestatic 54, 3) := by decide +kernel
theorem dX1_partErrors_25 : decode cX1_partErrors 25 = .ok (.aload_n 0, 1) := by decide +kernel
theorem dX1_partErrors_26 : decode cX1_partErrors 26 = .ok (.getfield 21, 3) := by decide +kernel
theorem dX1_partErrors_29 : decode cX1_partErrors 29 = .ok (.iload_n 2, 1) := by decide +kernel
theorem dX1_partErrors_30 : decode cX1_partErrors 30 = .ok (.aload_n 3, 1) := by decide +kernel
theorem dX1_partErrors_31 : decode cX1_partErrors 31 = .ok (.aload 5, 2) := by decide +kernel
theorem dX1_partErrors_33 : decode cX1_partErrors 33 = .ok (.invokestatic 54, 3) := by decide +kernel
theorem dX1_partErrors_36 : decode cX1_partErrors 36 = .ok (.aload_n 0, 1) := by decide +kernel
theorem dX1_partErrors_37 : decode cX1_partErrors 37 = .ok (.getfield 18, 3) := by decide +kernel
theorem dX1_partErrors_40 : decode cX1_partErrors 40 = .ok (.iload_n 2, 1) := by decide +kernel
theorem dX1_partErrors_41 : decode cX1_partErrors 41 = .ok (.aload_n 3, 1) := by decide +kernel
theorem dX1_partErrors_42 : decode cX1_partErrors 42 = .ok (.aload 4, 2) := by decide +kernel
theorem dX1_partErrors_44 : decode cX1_partErrors 44 = .ok (.invokestatic 54, 3) := by decide +kernel
theorem dX1_partErrors_47 : decode cX1_partErrors 47 = .ok (.aload_n 0, 1) := by decide +kernel
theorem dX1_partErrors_48 : decode cX1_partErrors 48 = .ok (.getfield 18, 3) := by decide +kernel
theorem dX1_partErrors_51 : decode cX1_partErrors 51 = .ok (.iload_n 1, 1) := by decide +kernel
theorem dX1_partErrors_52 : decode cX1_partErrors 52 = .ok (.aload_n 0, 1) := by decide +kernel
theorem dX1_partErrors_53 : decode cX1_partErrors 53 = .ok (.getfield 21, 3) := by decide +kernel
theorem dX1_partErrors_56 : decode cX1_partErrors 56 = .ok (.invokevirtual 62, 3) := by decide +kernel
theorem dX1_partErrors_59 : decode cX1_partErrors 59 = .ok (.pop, 1) := by decide +kernel
theorem dX1_partErrors_60 : decode cX1_partErrors 60 = .ok (.aload_n 0, 1) := by decide +kernel
theorem dX1_partErrors_61 : decode cX1_partErrors 61 = .ok (.invokevirtual 58, 3) := by decide +kernel
theorem dX1_partErrors_64 : decode cX1_partErrors 64 = .ok (.ireturn, 1) := by decide +kernel
set_option maxRecDepth 20000 in
theorem ggX1_withoutErrors_X1_make : GoodIn wsX1_withoutErrors wsX1_make := goodIn_ca (goodIn_r _ [7, 8, 9, 10, 11, 12, 13, 14, 15, 16, 17, 18, 19, 20, 21, 33, 34] (by decide +kernel) (by decide +kernel)) (goodIn_sub (fun _ h => List.mem_cons_of_mem _ (List.mem_append_right _ h)) (by decide +kernel))
set_option maxRecDepth 20000 in
theorem gX1_withoutErrors_X1_make : GoodIn wsX1_withoutErrors (va_wsS RX1 54 yX1_make wsX1_make) := goodIn_app (goodIn_of _ (by decide +kernel)) ggX1_withoutErrors_X1_make
set_option maxRecDepth 20000 in
theorem ggX1_withoutErrors_X2_combine : GoodIn wsX1_withoutErrors wsX2_combine := goodIn_ca (goodIn_r _ [18, 19, 20, 13, 14, 21, 33, 34] (by decide +kernel) (by decide +kernel)) (goodIn_sub (fun _ h => List.mem_cons_of_mem _ (List.mem_append_right _ h)) (by decide +kernel))
set_option maxRecDepth 20000 in
theorem gX1_withoutErrors_X2_combine : GoodIn wsX1_withoutErrors (wsV RX1 62 RX2 yX2_combine wsX2_combine) := goodIn_app (goodIn_of _ (by decide +kernel)) ggX1_withoutErrors_X2_combine
set_option maxRecDepth 20000 in
theorem ggX1_withoutErrors_X1_sidesDiffer : GoodIn wsX1_withoutErrors wsX1_sidesDiffer := goodIn_r _ [25, 2, 3, 26, 27, 28, 11, 29, 13, 14, 30, 31, 32, 33, 34] (by decide +kernel) (by decide +kernel)
set_option maxRecDepth 20000 in
theorem gX1_withoutErrors_X1_sidesDiffer : GoodIn wsX1_withoutErrors (wsV RX1 58 RX1 yX1_sidesDiffer wsX1_sidesDiffer) := goodIn_app (goodIn_of _ (by decide +kernel)) ggX1_withoutErrors_X1_sidesDiffer
theorem dX1_withoutErrors_0 : decode cX1_withoutErrors 0 = .ok (.aload_n 0, 1) := by decide +kernel
theorem dX1_withoutErrors_1 : decode cX1_withoutErrors 1 = .ok (.getfield 21, 3) := by decide +kernel
theorem dX1_withoutErrors_4 : decode cX1_withoutErrors 4 = .ok (.iload_n 1, 1) := by decide +kernel
theorem dX1_withoutErrors_5 : decode cX1_withoutErrors 5 = .ok (.aload 4, 2) := by decide +kernel
theorem dX1_withoutErrors_7 : decode cX1_withoutErrors 7 = .ok (.aload 5, 2) := by decide +kernel
theorem dX1_withoutErrors_9 : decode cX1_withoutErrors 9 = .ok (.invokestatic 54, 3) := by decide +kernel
theorem dX1_withoutErrors_12 : decode cX1_withoutErrors 12 = .ok (.aload_n 0, 1) := by decide +kernel
theorem dX1_withoutErrors_13 : decode cX1_withoutErrors 13 = .ok (.getfield 12, 3) := by decide +kernel
theorem dX1_withoutErrors_16 : decode cX1_withoutErrors 16 = .ok (.iconst 2, 1) := by decide +kernel
theorem dX1_withoutErrors_17 : decode cX1_withoutErrors 17 = .ok (.aload_n 3, 1) := by decide +kernel
theorem dX1_withoutErrors_18 : decode cX1_withoutErrors 18 = .ok (.aload_n 0, 1) := by decide +kernel
theorem dX1_withoutErrors_19 : decode cX1_withoutErrors 19 = .ok (.getfield 21, 3) := by decide +kernel
theorem dX1_withoutErrors_22 : decode cX1_withoutErrors 22 = .ok (.invokestatic 54, 3) := by decide +kernel
theorem dX1_withoutErrors_25 : decode cX1_withoutErrors 25 = .ok (.aload_n 0, 1) := by decide +kernel
theorem dX1_withoutErrors_26 : decode cX1_withoutErrors 26 = .ok (.getfield 21, 3) := by decide +kernel
theorem dX1_withoutErrors_29 : decode cX1_withoutErrors 29 = .ok (.iconst 2, 1) := by decide +kernel
theorem dX1_withoutErrors_30 : decode cX1_withoutErrors 30 = .ok (.aload_n 3, 1) := by decide +kernel
theorem dX1_withoutErrors_31 : decode cX1_withoutErrors 31 = .ok (.aload 5, 2) := by decide +kernel
theorem dX1_withoutErrors_33 : decode cX1_withoutErrors 33 = .ok (.invokestatic 54, 3) := by decide +kernel
theorem dX1_withoutErrors_36 : decode cX1_withoutErrors 36 = .ok (.aload_n 0, 1) := by decide +kernel
theorem dX1_withoutErrors_37 : decode cX1_withoutErrors 37 = .ok (.getfield 18, 3) := by decide +kernel
theorem dX1_withoutErrors_40 : decode cX1_withoutErrors 40 = .ok (.iconst 2, 1) := by decide +kernel
theorem dX1_withoutErrors_41 : decode cX1_withoutErrors 41 = .ok (.aload_n 3, 1) := by decide +kernel
theorem dX1_withoutErrors_42 : decode cX1_withoutErrors 42 = .ok (.aload 4, 2) := by decide +kernel
theorem dX1_withoutErrors_44 : decode cX1_withoutErrors 44 = .ok (.invokestatic 54, 3) := by decide +kernel
theorem dX1_withoutErrors_47 : decode cX1_withoutErrors 47 = .ok (.aload_n 0, 1) := by decide +kernel
theorem dX1_withoutErrors_48 : decode cX1_withoutErrors 48 = .ok (.getfield 18, 3) := by decide +kernel
theorem dX1_withoutErrors_51 : decode cX1_withoutErrors 51 = .ok (.iload_n 2, 1) := by decide +kernel
theorem dX1_withoutErrors_52 : decode cX1_withoutErrors 52 = .ok (.aload_n 0, 1) := by decide +kernel
theorem dX1_withoutErrors_53 : decode cX1_withoutErrors 53 = .ok (.getfield 21, 3) := by decide +kernel
theorem dX1_withoutErrors_56 : decode cX1_withoutErrors 56 = .ok (.invokevirtual 62, 3) := by decide +kernel
theorem dX1_withoutErrors_59 : decode cX1_withoutErrors 59 = .ok (.pop, 1) := by decide +kernel
theorem dX1_withoutErrors_60 : decode cX1_withoutErrors 60 = .ok (.aload_n 0, 1) := by decide +kernel
theorem dX1_withoutErrors_61 : decode cX1_withoutErrors 61 = .ok (.invokevirtual 58, 3) := by decide +kernel
theorem dX1_withoutErrors_64 : decode cX1_withoutErrors 64 = .ok (.ireturn, 1) := by decide +kernel
set_option maxRecDepth 20000 in
theorem ggX1_withinErrors_X2_holdsAll : GoodIn wsX1_withinErrors wsX2_holdsAll := goodIn_ca (goodIn_r _ [8, 9, 10, 11, 12, 13, 44, 45] (by decide +kernel) (by decide +kernel)) (goodIn_sub (fun _ h => List.mem_cons_of_mem _ (List.mem_append_right _ h)) (by decide +kernel))
set_option maxRecDepth 20000 in
theorem gX1_withinErrors_X2_holdsAll : GoodIn wsX1_withinErrors (wsV RX1 73 RX2 yX2_holdsAll wsX2_holdsAll) := goodIn_app (goodIn_of _ (by decide +kernel)) ggX1_withinErrors_X2_holdsAll
set_option maxRecDepth 20000 in
theorem ggX1_withinErrors_X1_make : GoodIn wsX1_withinErrors wsX1_make := goodIn_ca (goodIn_r _ [17, 18, 19, 20, 7, 21, 11, 13, 22, 23, 24, 25, 9, 10, 12, 44, 45] (by decide +kernel) (by decide +kernel)) (goodIn_sub (fun _ h => List.mem_cons_of_mem _ (List.mem_append_right _ h)) (by decide +kernel))
set_option maxRecDepth 20000 in
theorem gX1_withinErrors_X1_make : GoodIn wsX1_withinErrors (va_wsS RX1 54 yX1_make wsX1_make) := goodIn_app (goodIn_of _ (by decide +kernel)) ggX1_withinErrors_X1_make
set_option maxRecDepth 20000 in
theorem ggX1_withinErrors_X2_sameAs : GoodIn wsX1_withinErrors wsX2_sameAs := goodIn_r _ [29, 11, 13, 44, 45] (by decide +kernel) (by decide +kernel)
set_option maxRecDepth 20000 in
theorem gX1_withinErrors_X2_sameAs : GoodIn wsX1_withinErrors (wsV RX1 66 RX2 yX2_sameAs wsX2_sameAs) := goodIn_app (goodIn_of _ (by decide +kernel)) ggX1_withinErrors_X2_sameAs
set_option maxRecDepth 20000 in
theorem ggX1_withinErrors_X2_count : GoodIn wsX1_withinErrors wsX2_count := goodIn_r _ [33, 11, 13, 34, 35, 36, 37, 38, 39, 40, 44, 45] (by decide +kernel) (by decide +kernel)
set_option maxRecDepth 20000 in
theorem gX1_withinErrors_X2_count : GoodIn wsX1_withinErrors (wsV RX1 70 RX2 yX2_count wsX2_count) := goodIn_app (goodIn_of _ (by decide +kernel)) ggX1_withinErrors_X2_count
theorem dX1_withinErrors_0 : decode cX1_withinErrors 0 = .ok (.aload_n 2, 1) := by decide +kernel
theorem dX1_withinErrors_1 : decode cX1_withinErrors 1 = .ok (.aload_n 1, 1) := by decide +kernel
theorem dX1_withinErrors_2 : decode cX1_withinErrors 2 = .ok (.invokevirtual 73, 3) := by decide +kernel
theorem dX1_withinErrors_5 : decode cX1_withinErrors 5 = .ok (.istore_n 3, 1) := by decide +kernel
theorem dX1_withinErrors_6 : decode cX1_withinErrors 6 = .ok (.aload_n 0, 1) := by decide +kernel
theorem dX1_withinErrors_7 : decode cX1_withinErrors 7 = .ok (.getfield 12, 3) := by decide +kernel
theorem dX1_withinErrors_10 : decode cX1_withinErrors 10 = .ok (.iconst 0, 1) := by decide +kernel
theorem dX1_withinErrors_11 : decode cX1_withinErrors 11 = .ok (.aload_n 1, 1) := by decide +kernel
theorem dX1_withinErrors_12 : decode cX1_withinErrors 12 = .ok (.aload_n 2, 1) := by decide +kernel
theorem dX1_withinErrors_13 : decode cX1_withinErrors 13 = .ok (.invokestatic 54, 3) := by decide +kernel
theorem dX1_withinErrors_16 : decode cX1_withinErrors 16 = .ok (.aload_n 0, 1) := by decide +kernel
theorem dX1_withinErrors_17 : decode cX1_withinErrors 17 = .ok (.getfield 18, 3) := by decide +kernel
theorem dX1_withinErrors_20 : decode cX1_withinErrors 20 = .ok (.iconst 1, 1) := by decide +kernel
theorem dX1_withinErrors_21 : decode cX1_withinErrors 21 = .ok (.aload_n 1, 1) := by decide +kernel
theorem dX1_withinErrors_22 : decode cX1_withinErrors 22 = .ok (.aload_n 2, 1) := by decide +kernel
theorem dX1_withinErrors_23 : decode cX1_withinErrors 23 = .ok (.invokestatic 54, 3) := by decide +kernel
theorem dX1_withinErrors_26 : decode cX1_withinErrors 26 = .ok (.aload_n 0, 1) := by decide +kernel
theorem dX1_withinErrors_27 : decode cX1_withinErrors 27 = .ok (.getfield 21, 3) := by decide +kernel
theorem dX1_withinErrors_30 : decode cX1_withinErrors 30 = .ok (.iconst 2, 1) := by decide +kernel
theorem dX1_withinErrors_31 : decode cX1_withinErrors 31 = .ok (.aload_n 1, 1) := by decide +kernel
theorem dX1_withinErrors_32 : decode cX1_withinErrors 32 = .ok (.aload_n 2, 1) := by decide +kernel
theorem dX1_withinErrors_33 : decode cX1_withinErrors 33 = .ok (.invokestatic 54, 3) := by decide +kernel
theorem dX1_withinErrors_36 : decode cX1_withinErrors 36 = .ok (.iload_n 3, 1) := by decide +kernel
theorem dX1_withinErrors_37 : decode cX1_withinErrors 37 = .ok (.aload_n 0, 1) := by decide +kernel
theorem dX1_withinErrors_38 : decode cX1_withinErrors 38 = .ok (.getfield 12, 3) := by decide +kernel
theorem dX1_withinErrors_41 : decode cX1_withinErrors 41 = .ok (.aload_n 2, 1) := by decide +kernel
theorem dX1_withinErrors_42 : decode cX1_withinErrors 42 = .ok (.invokevirtual 66, 3) := by decide +kernel
theorem dX1_withinErrors_45 : decode cX1_withinErrors 45 = .ok (.if_icmp .ne 7, 3) := by decide +kernel
theorem dX1_withinErrors_48 : decode cX1_withinErrors 48 = .ok (.iconst 0, 1) := by decide +kernel
theorem dX1_withinErrors_49 : decode cX1_withinErrors 49 = .ok (.goto 4, 3) := by decide +kernel
theorem dX1_withinErrors_52 : decode cX1_withinErrors 52 = .ok (.iconst 1, 1) := by decide +kernel
theorem dX1_withinErrors_53 : decode cX1_withinErrors 53 = .ok (.iload_n 3, 1) := by decide +kernel
theorem dX1_withinErrors_54 : decode cX1_withinErrors 54 = .ok (.aload_n 0, 1) := by decide +kernel
theorem dX1_withinErrors_55 : decode cX1_withinErrors 55 = .ok (.getfield 18, 3) := by decide +kernel
theorem dX1_withinErrors_58 : decode cX1_withinErrors 58 = .ok (.aload_n 1, 1) := by decide +kernel
theorem dX1_withinErrors_59 : decode cX1_withinErrors 59 = .ok (.invokevirtual 66, 3) := by decide +kernel
theorem dX1_withinErrors_62 : decode cX1_withinErrors 62 = .ok (.if_icmp .ne 7, 3) := by decide +kernel
theorem dX1_withinErrors_65 : decode cX1_withinErrors 65 = .ok (.iconst 0, 1) := by decide +kernel
theorem dX1_withinErrors_66 : decode cX1_withinErrors 66 = .ok (.goto 4, 3) := by decide +kernel
theorem dX1_withinErrors_69 : decode cX1_withinErrors 69 = .ok (.iconst 1, 1) := by decide +kernel
theorem dX1_withinErrors_70 : decode cX1_withinErrors 70 = .ok (.iadd, 1) := by decide +kernel
theorem dX1_withinErrors_71 : decode cX1_withinErrors 71 = .ok (.iload_n 3, 1) := by decide +kernel
theorem dX1_withinErrors_72 : decode cX1_withinErrors 72 = .ok (.aload_n 0, 1) := by decide +kernel
theorem dX1_withinErrors_73 : decode cX1_withinErrors 73 = .ok (.getfield 21, 3) := by decide +kernel
theorem dX1_withinErrors_76 : decode cX1_withinErrors 76 = .ok (.invokevirtual 70, 3) := by decide +kernel
theorem dX1_withinErrors_79 : decode cX1_withinErrors 79 = .ok (.ifCond .ne 7, 3) := by decide +kernel
theorem dX1_withinErrors_82 : decode cX1_withinErrors 82 = .ok (.iconst 1, 1) := by decide +kernel
theorem dX1_withinErrors_83 : decode cX1_withinErrors 83 = .ok (.goto 4, 3) := by decide +kernel
theorem dX1_withinErrors_86 : decode cX1_withinErrors 86 = .ok (.iconst 0, 1) := by decide +kernel
theorem dX1_withinErrors_87 : decode cX1_withinErrors 87 = .ok (.if_icmp .ne 7, 3) := by decide +kernel
theorem dX1_withinErrors_90 : decode cX1_withinErrors 90 = .ok (.iconst 0, 1) := by decide +kernel
theorem dX1_withinErrors_91 : decode cX1_withinErrors 91 = .ok (.goto 4, 3) := by decide +kernel
theorem dX1_withinErrors_94 : decode cX1_withinErrors 94 = .ok (.iconst 1, 1) := by decide +kernel
theorem dX1_withinErrors_95 : decode cX1_withinErrors 95 = .ok (.iadd, 1) := by decide +kernel
theorem dX1_withinErrors_96 : decode cX1_withinErrors 96 = .ok (.ireturn, 1) := by decide +kernel
set_option maxRecDepth 20000 in
theorem ggX1_sizeErrors_X1_make : GoodIn wsX1_sizeErrors wsX1_make := goodIn_ca (goodIn_r _ [6, 7, 8, 9, 10, 11, 12, 13, 14, 15, 16, 17, 18, 19, 20, 35, 36] (by decide +kernel) (by decide +kernel)) (goodIn_sub (fun _ h => List.mem_cons_of_mem _ (List.mem_append_right _ h)) (by decide +kernel))
set_option maxRecDepth 20000 in
theorem gX1_sizeErrors_X1_make : GoodIn wsX1_sizeErrors (va_wsS RX1 54 yX1_make wsX1_make) := goodIn_app (goodIn_of _ (by decide +kernel)) ggX1_sizeErrors_X1_make
set_option maxRecDepth 20000 in
theorem ggX1_sizeErrors_X2_combine : GoodIn wsX1_sizeErrors wsX2_combine := goodIn_ca (goodIn_r _ [17, 18, 19, 12, 13, 20, 35, 36] (by decide +kernel) (by decide +kernel)) (goodIn_sub (fun _ h => List.mem_cons_of_mem _ (List.mem_append_right _ h)) (by decide +kernel))
set_option maxRecDepth 20000 in
theorem gX1_sizeErrors_X2_combine : GoodIn wsX1_sizeErrors (wsV RX1 62 RX2 yX2_combine wsX2_combine) := goodIn_app (goodIn_of _ (by decide +kernel)) ggX1_sizeErrors_X2_combine
set_option maxRecDepth 20000 in
theorem ggX1_sizeErrors_X2_count : GoodIn wsX1_sizeErrors wsX2_count := goodIn_r _ [24, 12, 13, 25, 26, 27, 28, 29, 30, 31, 35, 36] (by decide +kernel) (by decide +kernel)
set_option maxRecDepth 20000 in
theorem gX1_sizeErrors_X2_count : GoodIn wsX1_sizeErrors (wsV RX1 70 RX2 yX2_count wsX2_count) := goodIn_app (goodIn_of _ (by decide +kernel)) ggX1_sizeErrors_X2_count
theorem dX1_sizeErrors_0 : decode cX1_sizeErrors 0 = .ok (.aload_n 0, 1) := by decide +kernel
theorem dX1_sizeErrors_1 : decode cX1_sizeErrors 1 = .ok (.getfield 12, 3) := by decide +kernel
theorem dX1_sizeErrors_4 : decode cX1_sizeErrors 4 = .ok (.iconst 0, 1) := by decide +kernel
theorem dX1_sizeErrors_5 : decode cX1_sizeErrors 5 = .ok (.aload_n 1, 1) := by decide +kernel
theorem dX1_sizeErrors_6 : decode cX1_sizeErrors 6 = .ok (.aload_n 2, 1) := by decide +kernel
theorem dX1_sizeErrors_7 : decode cX1_sizeErrors 7 = .ok (.invokestatic 54, 3) := by decide +kernel
theorem dX1_sizeErrors_10 : decode cX1_sizeErrors 10 = .ok (.aload_n 0, 1) := by decide +kernel
theorem dX1_sizeErrors_11 : decode cX1_sizeErrors 11 = .ok (.getfield 12, 3) := by decide +kernel
theorem dX1_sizeErrors_14 : decode cX1_sizeErrors 14 = .ok (.iconst 0, 1) := by decide +kernel
theorem dX1_sizeErrors_15 : decode cX1_sizeErrors 15 = .ok (.aload_n 3, 1) := by decide +kernel
theorem dX1_sizeErrors_16 : decode cX1_sizeErrors 16 = .ok (.invokevirtual 62, 3) := by decide +kernel
theorem dX1_sizeErrors_19 : decode cX1_sizeErrors 19 = .ok (.pop, 1) := by decide +kernel
theorem dX1_sizeErrors_20 : decode cX1_sizeErrors 20 = .ok (.aload_n 0, 1) := by decide +kernel
theorem dX1_sizeErrors_21 : decode cX1_sizeErrors 21 = .ok (.getfield 18, 3) := by decide +kernel
theorem dX1_sizeErrors_24 : decode cX1_sizeErrors 24 = .ok (.iconst 1, 1) := by decide +kernel
theorem dX1_sizeErrors_25 : decode cX1_sizeErrors 25 = .ok (.aload_n 1, 1) := by decide +kernel
theorem dX1_sizeErrors_26 : decode cX1_sizeErrors 26 = .ok (.aload_n 2, 1) := by decide +kernel
theorem dX1_sizeErrors_27 : decode cX1_sizeErrors 27 = .ok (.invokestatic 54, 3) := by decide +kernel
theorem dX1_sizeErrors_30 : decode cX1_sizeErrors 30 = .ok (.aload_n 1, 1) := by decide +kernel
theorem dX1_sizeErrors_31 : decode cX1_sizeErrors 31 = .ok (.invokevirtual 70, 3) := by decide +kernel
theorem dX1_sizeErrors_34 : decode cX1_sizeErrors 34 = .ok (.aload_n 2, 1) := by decide +kernel
theorem dX1_sizeErrors_35 : decode cX1_sizeErrors 35 = .ok (.invokevirtual 70, 3) := by decide +kernel
theorem dX1_sizeErrors_38 : decode cX1_sizeErrors 38 = .ok (.iadd, 1) := by decide +kernel
theorem dX1_sizeErrors_39 : decode cX1_sizeErrors 39 = .ok (.aload_n 3, 1) := by decide +kernel
theorem dX1_sizeErrors_40 : decode cX1_sizeErrors 40 = .ok (.invokevirtual 70, 3) := by decide +kernel
theorem dX1_sizeErrors_43 : decode cX1_sizeErrors 43 = .ok (.iadd, 1) := by decide +kernel
theorem dX1_sizeErrors_44 : decode cX1_sizeErrors 44 = .ok (.aload_n 0, 1) := by decide +kernel
theorem dX1_sizeErrors_45 : decode cX1_sizeErrors 45 = .ok (.getfield 18, 3) := by decide +kernel
theorem dX1_sizeErrors_48 : decode cX1_sizeErrors 48 = .ok (.invokevirtual 70, 3) := by decide +kernel
theorem dX1_sizeErrors_51 : decode cX1_sizeErrors 51 = .ok (.isub, 1) := by decide +kernel
theorem dX1_sizeErrors_52 : decode cX1_sizeErrors 52 = .ok (.istore 4, 2) := by decide +kernel
theorem dX1_sizeErrors_54 : decode cX1_sizeErrors 54 = .ok (.aload_n 0, 1) := by decide +kernel
theorem dX1_sizeErrors_55 : decode cX1_sizeErrors 55 = .ok (.getfield 18, 3) := by decide +kernel
theorem dX1_sizeErrors_58 : decode cX1_sizeErrors 58 = .ok (.iconst 1, 1) := by decide +kernel
theorem dX1_sizeErrors_59 : decode cX1_sizeErrors 59 = .ok (.aload_n 3, 1) := by decide +kernel
theorem dX1_sizeErrors_60 : decode cX1_sizeErrors 60 = .ok (.invokevirtual 62, 3) := by decide +kernel
theorem dX1_sizeErrors_63 : decode cX1_sizeErrors 63 = .ok (.pop, 1) := by decide +kernel
theorem dX1_sizeErrors_64 : decode cX1_sizeErrors 64 = .ok (.iload 4, 2) := by decide +kernel
theorem dX1_sizeErrors_66 : decode cX1_sizeErrors 66 = .ok (.aload_n 0, 1) := by decide +kernel
theorem dX1_sizeErrors_67 : decode cX1_sizeErrors 67 = .ok (.getfield 18, 3) := by decide +kernel
theorem dX1_sizeErrors_70 : decode cX1_sizeErrors 70 = .ok (.invokevirtual 70, 3) := by decide +kernel
theorem dX1_sizeErrors_73 : decode cX1_sizeErrors 73 = .ok (.iadd, 1) := by decide +kernel
theorem dX1_sizeErrors_74 : decode cX1_sizeErrors 74 = .ok (.istore 4, 2) := by decide +kernel
theorem dX1_sizeErrors_76 : decode cX1_sizeErrors 76 = .ok (.aload_n 0, 1) := by decide +kernel
theorem dX1_sizeErrors_77 : decode cX1_sizeErrors 77 = .ok (.getfield 18, 3) := by decide +kernel
theorem dX1_sizeErrors_80 : decode cX1_sizeErrors 80 = .ok (.iconst 1, 1) := by decide +kernel
theorem dX1_sizeErrors_81 : decode cX1_sizeErrors 81 = .ok (.aload_n 1, 1) := by decide +kernel
theorem dX1_sizeErrors_82 : decode cX1_sizeErrors 82 = .ok (.aload_n 3, 1) := by decide +kernel
theorem dX1_sizeErrors_83 : decode cX1_sizeErrors 83 = .ok (.invokestatic 54, 3) := by decide +kernel
theorem dX1_sizeErrors_86 : decode cX1_sizeErrors 86 = .ok (.iload 4, 2) := by decide +kernel
theorem dX1_sizeErrors_88 : decode cX1_sizeErrors 88 = .ok (.aload_n 0, 1) := by decide +kernel
theorem dX1_sizeErrors_89 : decode cX1_sizeErrors 89 = .ok (.getfield 18, 3) := by decide +kernel
theorem dX1_sizeErrors_92 : decode cX1_sizeErrors 92 = .ok (.invokevirtual 70, 3) := by decide +kernel
theorem dX1_sizeErrors_95 : decode cX1_sizeErrors 95 = .ok (.isub, 1) := by decide +kernel
theorem dX1_sizeErrors_96 : decode cX1_sizeErrors 96 = .ok (.istore 4, 2) := by decide +kernel
theorem dX1_sizeErrors_98 : decode cX1_sizeErrors 98 = .ok (.aload_n 0, 1) := by decide +kernel
theorem dX1_sizeErrors_99 : decode cX1_sizeErrors 99 = .ok (.getfield 18, 3) := by decide +kernel
theorem dX1_sizeErrors_102 : decode cX1_sizeErrors 102 = .ok (.iconst 1, 1) := by decide +kernel
theorem dX1_sizeErrors_103 : decode cX1_sizeErrors 103 = .ok (.aload_n 2, 1) := by decide +kernel
theorem dX1_sizeErrors_104 : decode cX1_sizeErrors 104 = .ok (.aload_n 3, 1) := by decide +kernel
theorem dX1_sizeErrors_105 : decode cX1_sizeErrors 105 = .ok (.invokestatic 54, 3) := by decide +kernel
theorem dX1_sizeErrors_108 : decode cX1_sizeErrors 108 = .ok (.iload 4, 2) := by decide +kernel
theorem dX1_sizeErrors_110 : decode cX1_sizeErrors 110 = .ok (.aload_n 0, 1) := by decide +kernel
theorem dX1_sizeErrors_111 : decode cX1_sizeErrors 111 = .ok (.getfield 18, 3) := by decide +kernel
theorem dX1_sizeErrors_114 : decode cX1_sizeErrors 114 = .ok (.invokevirtual 70, 3) := by decide +kernel
theorem dX1_sizeErrors_117 : decode cX1_sizeErrors 117 = .ok (.isub, 1) := by decide +kernel
theorem dX1_sizeErrors_118 : decode cX1_sizeErrors 118 = .ok (.istore 4, 2) := by decide +kernel
theorem dX1_sizeErrors_120 : decode cX1_sizeErrors 120 = .ok (.aload_n 0, 1) := by decide +kernel
theorem dX1_sizeErrors_121 : decode cX1_sizeErrors 121 = .ok (.getfield 12, 3) := by decide +kernel
theorem dX1_sizeErrors_124 : decode cX1_sizeErrors 124 = .ok (.invokevirtual 70, 3) := by decide +kernel
theorem dX1_sizeErrors_127 : decode cX1_sizeErrors 127 = .ok (.iload 4, 2) := by decide +kernel
theorem dX1_sizeErrors_129 : decode cX1_sizeErrors 129 = .ok (.if_icmp .ne 7, 3) := by decide +kernel
theorem dX1_sizeErrors_132 : decode cX1_sizeErrors 132 = .ok (.iconst 0, 1) := by decide +kernel
theorem dX1_sizeErrors_133 : decode cX1_sizeErrors 133 = .ok (.goto 4, 3) := by decide +kernel
theorem dX1_sizeErrors_136 : decode cX1_sizeErrors 136 = .ok (.iconst 1, 1) := by decide +kernel
theorem dX1_sizeErrors_137 : decode cX1_sizeErrors 137 = .ok (.ireturn, 1) := by decide +kernel
set_option maxRecDepth 20000 in
theorem ggX1_make_X2_become : GoodIn wsX1_make wsX2_become := goodIn_r _ [5, 6, 7, 15, 16] (by decide +kernel) (by decide +kernel)
set_option maxRecDepth 20000 in
theorem gX1_make_X2_become : GoodIn wsX1_make (wsV RX1 76 RX2 yX2_become wsX2_become) := goodIn_app (goodIn_of _ (by decide +kernel)) ggX1_make_X2_become
set_option maxRecDepth 20000 in
theorem ggX1_make_X2_combine : GoodIn wsX1_make wsX2_combine := goodIn_ca (goodIn_r _ [11, 12, 13, 6, 7, 14, 15, 16] (by decide +kernel) (by decide +kernel)) (goodIn_sub (fun _ h => List.mem_cons_of_mem _ (List.mem_append_right _ h)) (by decide +kernel))
set_option maxRecDepth 20000 in
theorem gX1_make_X2_combine : GoodIn wsX1_make (wsV RX1 62 RX2 yX2_combine wsX2_combine) := goodIn_app (goodIn_of _ (by decide +kernel)) ggX1_make_X2_combine
theorem dX1_make_0 : decode cX1_make 0 = .ok (.aload_n 0, 1) := by decide +kernel
theorem dX1_make_1 : decode cX1_make 1 = .ok (.aload_n 2, 1) := by decide +kernel
theorem dX1_make_2 : decode cX1_make 2 = .ok (.invokevirtual 76, 3) := by decide +kernel
theorem dX1_make_5 : decode cX1_make 5 = .ok (.aload_n 0, 1) := by decide +kernel
theorem dX1_make_6 : decode cX1_make 6 = .ok (.iload_n 1, 1) := by decide +kernel
theorem dX1_make_7 : decode cX1_make 7 = .ok (.aload_n 3, 1) := by decide +kernel
theorem dX1_make_8 : decode cX1_make 8 = .ok (.invokevirtual 62, 3) := by decide +kernel
theorem dX1_make_11 : decode cX1_make 11 = .ok (.pop, 1) := by decide +kernel
theorem dX1_make_12 : decode cX1_make 12 = .ok (.return_, 1) := by decide +kernel
set_option maxRecDepth 20000 in
theorem ggX1_sidesDiffer_X2_sameAs : GoodIn wsX1_sidesDiffer wsX2_sameAs := goodIn_r _ [7, 8, 9, 13, 14] (by decide +kernel) (by decide +kernel)
set_option maxRecDepth 20000 in
theorem gX1_sidesDiffer_X2_sameAs : GoodIn wsX1_sidesDiffer (wsV RX1 66 RX2 yX2_sameAs wsX2_sameAs) := goodIn_app (goodIn_of _ (by decide +kernel)) ggX1_sidesDiffer_X2_sameAs
theorem dX1_sidesDiffer_0 : decode cX1_sidesDiffer 0 = .ok (.aload_n 0, 1) := by decide +kernel
theorem dX1_sidesDiffer_1 : decode cX1_sidesDiffer 1 = .ok (.getfield 12, 3) := by decide +kernel
theorem dX1_sidesDiffer_4 : decode cX1_sidesDiffer 4 = .ok (.aload_n 0, 1) := by decide +kernel
theorem dX1_sidesDiffer_5 : decode cX1_sidesDiffer 5 = .ok (.getfield 18, 3) := by decide +kernel
theorem dX1_sidesDiffer_8 : decode cX1_sidesDiffer 8 = .ok (.invokevirtual 66, 3) := by decide +kernel
theorem dX1_sidesDiffer_11 : decode cX1_sidesDiffer 11 = .ok (.ifCond .eq 7, 3) := by decide +kernel
theorem dX1_sidesDiffer_14 : decode cX1_sidesDiffer 14 = .ok (.iconst 0, 1) := by decide +kernel
theorem dX1_sidesDiffer_15 : decode cX1_sidesDiffer 15 = .ok (.goto 4, 3) := by decide +kernel
theorem dX1_sidesDiffer_18 : decode cX1_sidesDiffer 18 = .ok (.iconst 1, 1) := by decide +kernel
theorem dX1_sidesDiffer_19 : decode cX1_sidesDiffer 19 = .ok (.ireturn, 1) := by decide +kernel
theorem dX2_init_0 : decode cX2_init 0 = .ok (.aload_n 0, 1) := by decide +kernel
theorem dX2_init_1 : decode cX2_init 1 = .ok (.invokespecial 3, 3) := by decide +kernel
theorem dX2_init_4 : decode cX2_init 4 = .ok (.aload_n 0, 1) := by decide +kernel
theorem dX2_init_5 : decode cX2_init 5 = .ok (.lconst 0, 1) := by decide +kernel
theorem dX2_init_6 : decode cX2_init 6 = .ok (.putfield 9, 3) := by decide +kernel
theorem dX2_init_9 : decode cX2_init 9 = .ok (.aload_n 0, 1) := by decide +kernel
theorem dX2_init_10 : decode cX2_init 10 = .ok (.lconst 0, 1) := by decide +kernel
theorem dX2_init_11 : decode cX2_init 11 = .ok (.putfield 15, 3) := by decide +kernel
theorem dX2_init_14 : decode cX2_init 14 = .ok (.return_, 1) := by decide +kernel
theorem dX2_holds_0 : decode cX2_holds 0 = .ok (.iload_n 1, 1) := by decide +kernel
theorem dX2_holds_1 : decode cX2_holds 1 = .ok (.ifCond .lt 9, 3) := by decide +kernel
theorem dX2_holds_4 : decode cX2_holds 4 = .ok (.iload_n 1, 1) := by decide +kernel
theorem dX2_holds_5 : decode cX2_holds 5 = .ok (.bipush 102, 2) := by decide +kernel
theorem dX2_holds_7 : decode cX2_holds 7 = .ok (.if_icmp .lt 5, 3) := by decide +kernel
theorem dX2_holds_10 : decode cX2_holds 10 = .ok (.iconst 0, 1) := by decide +kernel
theorem dX2_holds_11 : decode cX2_holds 11 = .ok (.ireturn, 1) := by decide +kernel
theorem dX2_holds_12 : decode cX2_holds 12 = .ok (.iload_n 1, 1) := by decide +kernel
theorem dX2_holds_13 : decode cX2_holds 13 = .ok (.bipush 64, 2) := by decide +kernel
theorem dX2_holds_15 : decode cX2_holds 15 = .ok (.if_icmp .ge 10, 3) := by decide +kernel
theorem dX2_holds_18 : decode cX2_holds 18 = .ok (.aload_n 0, 1) := by decide +kernel
theorem dX2_holds_19 : decode cX2_holds 19 = .ok (.getfield 9, 3) := by decide +kernel
theorem dX2_holds_22 : decode cX2_holds 22 = .ok (.goto 7, 3) := by decide +kernel
theorem dX2_holds_25 : decode cX2_holds 25 = .ok (.aload_n 0, 1) := by decide +kernel
theorem dX2_holds_26 : decode cX2_holds 26 = .ok (.getfield 15, 3) := by decide +kernel
theorem dX2_holds_29 : decode cX2_holds 29 = .ok (.lstore_n 2, 1) := by decide +kernel
theorem dX2_holds_30 : decode cX2_holds 30 = .ok (.lload_n 2, 1) := by decide +kernel
theorem dX2_holds_31 : decode cX2_holds 31 = .ok (.iload_n 1, 1) := by decide +kernel
theorem dX2_holds_32 : decode cX2_holds 32 = .ok (.bipush 64, 2) := by decide +kernel
theorem dX2_holds_34 : decode cX2_holds 34 = .ok (.irem, 1) := by decide +kernel
theorem dX2_holds_35 : decode cX2_holds 35 = .ok (.lushr, 1) := by decide +kernel
theorem dX2_holds_36 : decode cX2_holds 36 = .ok (.lconst 1, 1) := by decide +kernel
theorem dX2_holds_37 : decode cX2_holds 37 = .ok (.land, 1) := by decide +kernel
theorem dX2_holds_38 : decode cX2_holds 38 = .ok (.lconst 0, 1) := by decide +kernel
theorem dX2_holds_39 : decode cX2_holds 39 = .ok (.lcmp, 1) := by decide +kernel
theorem dX2_holds_40 : decode cX2_holds 40 = .ok (.ifCond .eq 7, 3) := by decide +kernel
theorem dX2_holds_43 : decode cX2_holds 43 = .ok (.iconst 1, 1) := by decide +kernel
theorem dX2_holds_44 : decode cX2_holds 44 = .ok (.goto 4, 3) := by decide +kernel
theorem dX2_holds_47 : decode cX2_holds 47 = .ok (.iconst 0, 1) := by decide +kernel
theorem dX2_holds_48 : decode cX2_holds 48 = .ok (.ireturn, 1) := by decide +kernel
set_option maxRecDepth 20000 in
theorem ggX2_put_X2_holds : GoodIn wsX2_put wsX2_holds := goodIn_r _ [5, 6, 7, 12, 13] (by decide +kernel) (by decide +kernel)
set_option maxRecDepth 20000 in
theorem gX2_put_X2_holds : GoodIn wsX2_put (wsV RX2 18 RX2 yX2_holds wsX2_holds) := goodIn_app (goodIn_of _ (by decide +kernel)) ggX2_put_X2_holds
set_option maxRecDepth 20000 in
theorem ggX2_put_X2_flip : GoodIn wsX2_put wsX2_flip := goodIn_r _ [11, 6, 7, 12, 13] (by decide +kernel) (by decide +kernel)
set_option maxRecDepth 20000 in
theorem gX2_put_X2_flip : GoodIn wsX2_put (wsV RX2 22 RX2 yX2_flip wsX2_flip) := goodIn_app (goodIn_of _ (by decide +kernel)) ggX2_put_X2_flip
theorem dX2_put_0 : decode cX2_put 0 = .ok (.iload_n 1, 1) := by decide +kernel
theorem dX2_put_1 : decode cX2_put 1 = .ok (.ifCond .lt 17, 3) := by decide +kernel
theorem dX2_put_4 : decode cX2_put 4 = .ok (.iload_n 1, 1) := by decide +kernel
theorem dX2_put_5 : decode cX2_put 5 = .ok (.bipush 102, 2) := by decide +kernel
theorem dX2_put_7 : decode cX2_put 7 = .ok (.if_icmp .ge 11, 3) := by decide +kernel
theorem dX2_put_10 : decode cX2_put 10 = .ok (.aload_n 0, 1) := by decide +kernel
theorem dX2_put_11 : decode cX2_put 11 = .ok (.iload_n 1, 1) := by decide +kernel
theorem dX2_put_12 : decode cX2_put 12 = .ok (.invokevirtual 18, 3) := by decide +kernel
theorem dX2_put_15 : decode cX2_put 15 = .ok (.ifCond .eq 5, 3) := by decide +kernel
theorem dX2_put_18 : decode cX2_put 18 = .ok (.iconst 0, 1) := by decide +kernel
theorem dX2_put_19 : decode cX2_put 19 = .ok (.ireturn, 1) := by decide +kernel
theorem dX2_put_20 : decode cX2_put 20 = .ok (.aload_n 0, 1) := by decide +kernel
theorem dX2_put_21 : decode cX2_put 21 = .ok (.iload_n 1, 1) := by decide +kernel
theorem dX2_put_22 : decode cX2_put 22 = .ok (.invokevirtual 22, 3) := by decide +kernel
theorem dX2_put_25 : decode cX2_put 25 = .ok (.iconst 1, 1) := by decide +kernel
theorem dX2_put_26 : decode cX2_put 26 = .ok (.ireturn, 1) := by decide +kernel
set_option maxRecDepth 20000 in
theorem ggX2_takeOut_X2_holds : GoodIn wsX2_takeOut wsX2_holds := goodIn_r _ [5, 6, 7, 12, 13] (by decide +kernel) (by decide +kernel)
set_option maxRecDepth 20000 in
theorem gX2_takeOut_X2_holds : GoodIn wsX2_takeOut (wsV RX2 18 RX2 yX2_holds wsX2_holds) := goodIn_app (goodIn_of _ (by decide +kernel)) ggX2_takeOut_X2_holds
set_option maxRecDepth 20000 in
theorem ggX2_takeOut_X2_flip : GoodIn wsX2_takeOut wsX2_flip := goodIn_r _ [11, 6, 7, 12, 13] (by decide +kernel) (by decide +kernel)
set_option maxRecDepth 20000 in
theorem gX2_takeOut_X2_flip : GoodIn wsX2_takeOut (wsV RX2 22 RX2 yX2_flip wsX2_flip) := goodIn_app (goodIn_of _ (by decide +kernel)) ggX2_takeOut_X2_flip
theorem dX2_takeOut_0 : decode cX2_takeOut 0 = .ok (.aload_n 0, 1) := by decide +kernel
theorem dX2_takeOut_1 : decode cX2_takeOut 1 = .ok (.iload_n 1, 1) := by decide +kernel
theorem dX2_takeOut_2 : decode cX2_takeOut 2 = .ok (.invokevirtual 18, 3) := by decide +kernel
theorem dX2_takeOut_5 : decode cX2_takeOut 5 = .ok (.ifCond .ne 5, 3) := by decide +kernel
theorem dX2_takeOut_8 : decode cX2_takeOut 8 = .ok (.iconst 0, 1) := by decide +kernel
theorem dX2_takeOut_9 : decode cX2_takeOut 9 = .ok (.ireturn, 1) := by decide +kernel
theorem dX2_takeOut_10 : decode cX2_takeOut 10 = .ok (.aload_n 0, 1) := by decide +kernel
theorem dX2_takeOut_11 : decode cX2_takeOut 11 = .ok (.iload_n 1, 1) := by decide +kernel
theorem dX2_takeOut_12 : decode cX2_takeOut 12 = .ok (.invokevirtual 22, 3) := by decide +kernel
theorem dX2_takeOut_15 : decode cX2_takeOut 15 = .ok (.iconst 1, 1) := by decide +kernel
theorem dX2_takeOut_16 : decode cX2_takeOut 16 = .ok (.ireturn, 1) := by decide +kernel
theorem dX2_flip_0 : decode cX2_flip 0 = .ok (.lconst 1, 1) := by decide +kernel
theorem dX2_flip_1 : decode cX2_flip 1 = .ok (.iload_n 1, 1) := by decide +kernel
theorem dX2_flip_2 : decode cX2_flip 2 = .ok (.bipush 64, 2) := by decide +kernel
theorem dX2_flip_4 : decode cX2_flip 4 = .ok (.irem, 1) := by decide +kernel
theorem dX2_flip_5 : decode cX2_flip 5 = .ok (.lshl, 1) := by decide +kernel
theorem dX2_flip_6 : decode cX2_flip 6 = .ok (.lstore_n 2, 1) := by decide +kernel
theorem dX2_flip_7 : decode cX2_flip 7 = .ok (.iload_n 1, 1) := by decide +kernel
theorem dX2_flip_8 : decode cX2_flip 8 = .ok (.bipush 64, 2) := by decide +kernel
theorem dX2_flip_10 : decode cX2_flip 10 = .ok (.if_icmp .ge 16, 3) := by decide +kernel
theorem dX2_flip_13 : decode cX2_flip 13 = .ok (.aload_n 0, 1) := by decide +kernel
theorem dX2_flip_14 : decode cX2_flip 14 = .ok (.dup, 1) := by decide +kernel
theorem dX2_flip_15 : decode cX2_flip 15 = .ok (.getfield 9, 3) := by decide +kernel
theorem dX2_flip_18 : decode cX2_flip 18 = .ok (.lload_n 2, 1) := by decide +kernel
theorem dX2_flip_19 : decode cX2_flip 19 = .ok (.lxor, 1) := by decide +kernel
theorem dX2_flip_20 : decode cX2_flip 20 = .ok (.putfield 9, 3) := by decide +kernel
theorem dX2_flip_23 : decode cX2_flip 23 = .ok (.goto 13, 3) := by decide +kernel
theorem dX2_flip_26 : decode cX2_flip 26 = .ok (.aload_n 0, 1) := by decide +kernel
theorem dX2_flip_27 : decode cX2_flip 27 = .ok (.dup, 1) := by decide +kernel
theorem dX2_flip_28 : decode cX2_flip 28 = .ok (.getfield 15, 3) := by decide +kernel
theorem dX2_flip_31 : decode cX2_flip 31 = .ok (.lload_n 2, 1) := by decide +kernel
theorem dX2_flip_32 : decode cX2_flip 32 = .ok (.lxor, 1) := by decide +kernel
theorem dX2_flip_33 : decode cX2_flip 33 = .ok (.putfield 15, 3) := by decide +kernel
theorem dX2_flip_36 : decode cX2_flip 36 = .ok (.return_, 1) := by decide +kernel
theorem dX2_empty_0 : decode cX2_empty 0 = .ok (.aload_n 0, 1) := by decide +kernel
theorem dX2_empty_1 : decode cX2_empty 1 = .ok (.lconst 0, 1) := by decide +kernel
theorem dX2_empty_2 : decode cX2_empty 2 = .ok (.putfield 9, 3) := by decide +kernel
theorem dX2_empty_5 : decode cX2_empty 5 = .ok (.aload_n 0, 1) := by decide +kernel
theorem dX2_empty_6 : decode cX2_empty 6 = .ok (.lconst 0, 1) := by decide +kernel
theorem dX2_empty_7 : decode cX2_empty 7 = .ok (.putfield 15, 3) := by decide +kernel
theorem dX2_empty_10 : decode cX2_empty 10 = .ok (.return_, 1) := by decide +kernel
theorem dX2_become_0 : decode cX2_become 0 = .ok (.aload_n 0, 1) := by decide +kernel
theorem dX2_become_1 : decode cX2_become 1 = .ok (.aload_n 1, 1) := by decide +kernel
theorem dX2_become_2 : decode cX2_become 2 = .ok (.getfield 9, 3) := by decide +kernel
theorem dX2_become_5 : decode cX2_become 5 = .ok (.putfield 9, 3) := by decide +kernel
theorem dX2_become_8 : decode cX2_become 8 = .ok (.aload_n 0, 1) := by decide +kernel
theorem dX2_become_9 : decode cX2_become 9 = .ok (.aload_n 1, 1) := by decide +kernel
theorem dX2_become_10 : decode cX2_become 10 = .ok (.getfield 15, 3) := by decide +kernel
theorem dX2_become_13 : decode cX2_become 13 = .ok (.putfield 15, 3) := by decide +kernel
theorem dX2_become_16 : decode cX2_become 16 = .ok (.return_, 1) := by decide +kernel
theorem dX2_combine_0 : decode cX2_combine 0 = .ok (.aload_n 2, 1) := by decide +kernel
theorem dX2_combine_1 : decode cX2_combine 1 = .ok (.ifnonnull 13, 3) := by decide +kernel
theorem dX2_combine_4 : decode cX2_combine 4 = .ok (.new 26, 3) := by decide +kernel
theorem dX2_combine_7 : decode cX2_combine 7 = .ok (.dup, 1) := by decide +kernel
theorem dX2_combine_8 : decode cX2_combine 8 = .ok (.ldc 28, 2) := by decide +kernel
theorem dX2_combine_10 : decode cX2_combine 10 = .ok (.invokespecial 30, 3) := by decide +kernel
theorem dX2_combine_13 : decode cX2_combine 13 = .ok (.athrow, 1) := by decide +kernel
theorem dX2_combine_14 : decode cX2_combine 14 = .ok (.aload_n 0, 1) := by decide +kernel
theorem dX2_combine_15 : decode cX2_combine 15 = .ok (.getfield 9, 3) := by decide +kernel
theorem dX2_combine_18 : decode cX2_combine 18 = .ok (.lstore_n 3, 1) := by decide +kernel
theorem dX2_combine_19 : decode cX2_combine 19 = .ok (.aload_n 0, 1) := by decide +kernel
theorem dX2_combine_20 : decode cX2_combine 20 = .ok (.getfield 15, 3) := by decide +kernel
theorem dX2_combine_23 : decode cX2_combine 23 = .ok (.lstore 5, 2) := by decide +kernel
theorem dX2_combine_25 : decode cX2_combine 25 = .ok (.iload_n 1, 1) := by decide +kernel
theorem dX2_combine_26 : decode cX2_combine 26 = .ok (.tableswitch 116 0 2 #[26, 55, 84], 26) := by decide +kernel
theorem dX2_combine_52 : decode cX2_combine 52 = .ok (.aload_n 0, 1) := by decide +kernel
theorem dX2_combine_53 : decode cX2_combine 53 = .ok (.dup, 1) := by decide +kernel
theorem dX2_combine_54 : decode cX2_combine 54 = .ok (.getfield 9, 3) := by decide +kernel
theorem dX2_combine_57 : decode cX2_combine 57 = .ok (.aload_n 2, 1) := by decide +kernel
theorem dX2_combine_58 : decode cX2_combine 58 = .ok (.getfield 9, 3) := by decide +kernel
theorem dX2_combine_61 : decode cX2_combine 61 = .ok (.lor, 1) := by decide +kernel
theorem dX2_combine_62 : decode cX2_combine 62 = .ok (.putfield 9, 3) := by decide +kernel
theorem dX2_combine_65 : decode cX2_combine 65 = .ok (.aload_n 0, 1) := by decide +kernel
theorem dX2_combine_66 : decode cX2_combine 66 = .ok (.dup, 1) := by decide +kernel
theorem dX2_combine_67 : decode cX2_combine 67 = .ok (.getfield 15, 3) := by decide +kernel
theorem dX2_combine_70 : decode cX2_combine 70 = .ok (.aload_n 2, 1) := by decide +kernel
theorem dX2_combine_71 : decode cX2_combine 71 = .ok (.getfield 15, 3) := by decide +kernel
theorem dX2_combine_74 : decode cX2_combine 74 = .ok (.lor, 1) := by decide +kernel
theorem dX2_combine_75 : decode cX2_combine 75 = .ok (.putfield 15, 3) := by decide +kernel
theorem dX2_combine_78 : decode cX2_combine 78 = .ok (.goto 90, 3) := by decide +kernel
theorem dX2_combine_81 : decode cX2_combine 81 = .ok (.aload_n 0, 1) := by decide +kernel
theorem dX2_combine_82 : decode cX2_combine 82 = .ok (.dup, 1) := by decide +kernel
theorem dX2_combine_83 : decode cX2_combine 83 = .ok (.getfield 9, 3) := by decide +kernel
theorem dX2_combine_86 : decode cX2_combine 86 = .ok (.aload_n 2, 1) := by decide +kernel
theorem dX2_combine_87 : decode cX2_combine 87 = .ok (.getfield 9, 3) := by decide +kernel
theorem dX2_combine_90 : decode cX2_combine 90 = .ok (.land, 1) := by decide +kernel
theorem dX2_combine_91 : decode cX2_combine 91 = .ok (.putfield 9, 3) := by decide +kernel
theorem dX2_combine_94 : decode cX2_combine 94 = .ok (.aload_n 0, 1) := by decide +kernel
theorem dX2_combine_95 : decode cX2_combine 95 = .ok (.dup, 1) := by decide +kernel
theorem dX2_combine_96 : decode cX2_combine 96 = .ok (.getfield 15, 3) := by decide +kernel
theorem dX2_combine_99 : decode cX2_combine 99 = .ok (.aload_n 2, 1) := by decide +kernel
theorem dX2_combine_100 : decode cX2_combine 100 = .ok (.getfield 15, 3) := by decide +kernel
theorem dX2_combine_103 : decode cX2_combine 103 = .ok (.land, 1) := by decide +kernel
theorem dX2_combine_104 : decode cX2_combine 104 = .ok (.putfield 15, 3) := by decide +kernel
theorem dX2_combine_107 : decode cX2_combine 107 = .ok (.goto 61, 3) := by decide +kernel
theorem dX2_combine_110 : decode cX2_combine 110 = .ok (.aload_n 0, 1) := by decide +kernel
theorem dX2_combine_111 : decode cX2_combine 111 = .ok (.lload_n 3, 1) := by decide +kernel
theorem dX2_combine_112 : decode cX2_combine 112 = .ok (.aload_n 2, 1) := by decide +kernel
theorem dX2_combine_113 : decode cX2_combine 113 = .ok (.getfield 9, 3) := by decide +kernel
theorem dX2_combine_116 : decode cX2_combine 116 = .ok (.ldc2_w 33, 3) := by decide +kernel
theorem dX2_combine_119 : decode cX2_combine 119 = .ok (.lxor, 1) := by decide +kernel
theorem dX2_combine_120 : decode cX2_combine 120 = .ok (.land, 1) := by decide +kernel
theorem dX2_combine_121 : decode cX2_combine 121 = .ok (.putfield 9, 3) := by decide +kernel
theorem dX2_combine_124 : decode cX2_combine 124 = .ok (.aload_n 0, 1) := by decide +kernel
theorem dX2_combine_125 : decode cX2_combine 125 = .ok (.lload 5, 2) := by decide +kernel
theorem dX2_combine_127 : decode cX2_combine 127 = .ok (.aload_n 2, 1) := by decide +kernel
theorem dX2_combine_128 : decode cX2_combine 128 = .ok (.getfield 15, 3) := by decide +kernel
theorem dX2_combine_131 : decode cX2_combine 131 = .ok (.ldc2_w 33, 3) := by decide +kernel
theorem dX2_combine_134 : decode cX2_combine 134 = .ok (.lxor, 1) := by decide +kernel
theorem dX2_combine_135 : decode cX2_combine 135 = .ok (.land, 1) := by decide +kernel
theorem dX2_combine_136 : decode cX2_combine 136 = .ok (.putfield 15, 3) := by decide +kernel
theorem dX2_combine_139 : decode cX2_combine 139 = .ok (.goto 29, 3) := by decide +kernel
theorem dX2_combine_142 : decode cX2_combine 142 = .ok (.aload_n 0, 1) := by decide +kernel
theorem dX2_combine_143 : decode cX2_combine 143 = .ok (.dup, 1) := by decide +kernel
theorem dX2_combine_144 : decode cX2_combine 144 = .ok (.getfield 9, 3) := by decide +kernel
theorem dX2_combine_147 : decode cX2_combine 147 = .ok (.aload_n 2, 1) := by decide +kernel
theorem dX2_combine_148 : decode cX2_combine 148 = .ok (.getfield 9, 3) := by decide +kernel
theorem dX2_combine_151 : decode cX2_combine 151 = .ok (.lxor, 1) := by decide +kernel
theorem dX2_combine_152 : decode cX2_combine 152 = .ok (.putfield 9, 3) := by decide +kernel
theorem dX2_combine_155 : decode cX2_combine 155 = .ok (.aload_n 0, 1) := by decide +kernel
theorem dX2_combine_156 : decode cX2_combine 156 = .ok (.dup, 1) := by decide +kernel
theorem dX2_combine_157 : decode cX2_combine 157 = .ok (.getfield 15, 3) := by decide +kernel
theorem dX2_combine_160 : decode cX2_combine 160 = .ok (.aload_n 2, 1) := by decide +kernel
theorem dX2_combine_161 : decode cX2_combine 161 = .ok (.getfield 15, 3) := by decide +kernel
theorem dX2_combine_164 : decode cX2_combine 164 = .ok (.lxor, 1) := by decide +kernel
theorem dX2_combine_165 : decode cX2_combine 165 = .ok (.putfield 15, 3) := by decide +kernel
theorem dX2_combine_168 : decode cX2_combine 168 = .ok (.aload_n 0, 1) := by decide +kernel
theorem dX2_combine_169 : decode cX2_combine 169 = .ok (.getfield 9, 3) := by decide +kernel
theorem dX2_combine_172 : decode cX2_combine 172 = .ok (.lload_n 3, 1) := by decide +kernel
theorem dX2_combine_173 : decode cX2_combine 173 = .ok (.lcmp, 1) := by decide +kernel
theorem dX2_combine_174 : decode cX2_combine 174 = .ok (.ifCond .ne 13, 3) := by decide +kernel
theorem dX2_combine_177 : decode cX2_combine 177 = .ok (.aload_n 0, 1) := by decide +kernel
theorem dX2_combine_178 : decode cX2_combine 178 = .ok (.getfield 15, 3) := by decide +kernel
theorem dX2_combine_181 : decode cX2_combine 181 = .ok (.lload 5, 2) := by decide +kernel
theorem dX2_combine_183 : decode cX2_combine 183 = .ok (.lcmp, 1) := by decide +kernel
theorem dX2_combine_184 : decode cX2_combine 184 = .ok (.ifCond .eq 7, 3) := by decide +kernel
theorem dX2_combine_187 : decode cX2_combine 187 = .ok (.iconst 1, 1) := by decide +kernel
theorem dX2_combine_188 : decode cX2_combine 188 = .ok (.goto 4, 3) := by decide +kernel
theorem dX2_combine_191 : decode cX2_combine 191 = .ok (.iconst 0, 1) := by decide +kernel
theorem dX2_combine_192 : decode cX2_combine 192 = .ok (.ireturn, 1) := by decide +kernel
theorem dX2_holdsAll_0 : decode cX2_holdsAll 0 = .ok (.aload_n 1, 1) := by decide +kernel
theorem dX2_holdsAll_1 : decode cX2_holdsAll 1 = .ok (.ifnonnull 13, 3) := by decide +kernel
theorem dX2_holdsAll_4 : decode cX2_holdsAll 4 = .ok (.new 26, 3) := by decide +kernel
theorem dX2_holdsAll_7 : decode cX2_holdsAll 7 = .ok (.dup, 1) := by decide +kernel
theorem dX2_holdsAll_8 : decode cX2_holdsAll 8 = .ok (.ldc 28, 2) := by decide +kernel
theorem dX2_holdsAll_10 : decode cX2_holdsAll 10 = .ok (.invokespecial 30, 3) := by decide +kernel
theorem dX2_holdsAll_13 : decode cX2_holdsAll 13 = .ok (.athrow, 1) := by decide +kernel
theorem dX2_holdsAll_14 : decode cX2_holdsAll 14 = .ok (.aload_n 1, 1) := by decide +kernel
theorem dX2_holdsAll_15 : decode cX2_holdsAll 15 = .ok (.getfield 9, 3) := by decide +kernel
theorem dX2_holdsAll_18 : decode cX2_holdsAll 18 = .ok (.aload_n 0, 1) := by decide +kernel
theorem dX2_holdsAll_19 : decode cX2_holdsAll 19 = .ok (.getfield 9, 3) := by decide +kernel
theorem dX2_holdsAll_22 : decode cX2_holdsAll 22 = .ok (.ldc2_w 33, 3) := by decide +kernel
theorem dX2_holdsAll_25 : decode cX2_holdsAll 25 = .ok (.lxor, 1) := by decide +kernel
theorem dX2_holdsAll_26 : decode cX2_holdsAll 26 = .ok (.land, 1) := by decide +kernel
theorem dX2_holdsAll_27 : decode cX2_holdsAll 27 = .ok (.lconst 0, 1) := by decide +kernel
theorem dX2_holdsAll_28 : decode cX2_holdsAll 28 = .ok (.lcmp, 1) := by decide +kernel
theorem dX2_holdsAll_29 : decode cX2_holdsAll 29 = .ok (.ifCond .ne 25, 3) := by decide +kernel
theorem dX2_holdsAll_32 : decode cX2_holdsAll 32 = .ok (.aload_n 1, 1) := by decide +kernel
theorem dX2_holdsAll_33 : decode cX2_holdsAll 33 = .ok (.getfield 15, 3) := by decide +kernel
theorem dX2_holdsAll_36 : decode cX2_holdsAll 36 = .ok (.aload_n 0, 1) := by decide +kernel
theorem dX2_holdsAll_37 : decode cX2_holdsAll 37 = .ok (.getfield 15, 3) := by decide +kernel
theorem dX2_holdsAll_40 : decode cX2_holdsAll 40 = .ok (.ldc2_w 33, 3) := by decide +kernel
theorem dX2_holdsAll_43 : decode cX2_holdsAll 43 = .ok (.lxor, 1) := by decide +kernel
theorem dX2_holdsAll_44 : decode cX2_holdsAll 44 = .ok (.land, 1) := by decide +kernel
theorem dX2_holdsAll_45 : decode cX2_holdsAll 45 = .ok (.lconst 0, 1) := by decide +kernel
theorem dX2_holdsAll_46 : decode cX2_holdsAll 46 = .ok (.lcmp, 1) := by decide +kernel
theorem dX2_holdsAll_47 : decode cX2_holdsAll 47 = .ok (.ifCond .ne 7, 3) := by decide +kernel
theorem dX2_holdsAll_50 : decode cX2_holdsAll 50 = .ok (.iconst 1, 1) := by decide +kernel
theorem dX2_holdsAll_51 : decode cX2_holdsAll 51 = .ok (.goto 4, 3) := by decide +kernel
theorem dX2_holdsAll_54 : decode cX2_holdsAll 54 = .ok (.iconst 0, 1) := by decide +kernel
theorem dX2_holdsAll_55 : decode cX2_holdsAll 55 = .ok (.ireturn, 1) := by decide +kernel
theorem dX2_sharesNone_0 : decode cX2_sharesNone 0 = .ok (.aload_n 0, 1) := by decide +kernel
theorem dX2_sharesNone_1 : decode cX2_sharesNone 1 = .ok (.getfield 9, 3) := by decide +kernel
theorem dX2_sharesNone_4 : decode cX2_sharesNone 4 = .ok (.aload_n 1, 1) := by decide +kernel
theorem dX2_sharesNone_5 : decode cX2_sharesNone 5 = .ok (.getfield 9, 3) := by decide +kernel
theorem dX2_sharesNone_8 : decode cX2_sharesNone 8 = .ok (.land, 1) := by decide +kernel
theorem dX2_sharesNone_9 : decode cX2_sharesNone 9 = .ok (.lconst 0, 1) := by decide +kernel
theorem dX2_sharesNone_10 : decode cX2_sharesNone 10 = .ok (.lcmp, 1) := by decide +kernel
theorem dX2_sharesNone_11 : decode cX2_sharesNone 11 = .ok (.ifCond .ne 21, 3) := by decide +kernel
theorem dX2_sharesNone_14 : decode cX2_sharesNone 14 = .ok (.aload_n 0, 1) := by decide +kernel
theorem dX2_sharesNone_15 : decode cX2_sharesNone 15 = .ok (.getfield 15, 3) := by decide +kernel
theorem dX2_sharesNone_18 : decode cX2_sharesNone 18 = .ok (.aload_n 1, 1) := by decide +kernel
theorem dX2_sharesNone_19 : decode cX2_sharesNone 19 = .ok (.getfield 15, 3) := by decide +kernel
theorem dX2_sharesNone_22 : decode cX2_sharesNone 22 = .ok (.land, 1) := by decide +kernel
theorem dX2_sharesNone_23 : decode cX2_sharesNone 23 = .ok (.lconst 0, 1) := by decide +kernel
theorem dX2_sharesNone_24 : decode cX2_sharesNone 24 = .ok (.lcmp, 1) := by decide +kernel
theorem dX2_sharesNone_25 : decode cX2_sharesNone 25 = .ok (.ifCond .ne 7, 3) := by decide +kernel
theorem dX2_sharesNone_28 : decode cX2_sharesNone 28 = .ok (.iconst 1, 1) := by decide +kernel
theorem dX2_sharesNone_29 : decode cX2_sharesNone 29 = .ok (.goto 4, 3) := by decide +kernel
theorem dX2_sharesNone_32 : decode cX2_sharesNone 32 = .ok (.iconst 0, 1) := by decide +kernel
theorem dX2_sharesNone_33 : decode cX2_sharesNone 33 = .ok (.ireturn, 1) := by decide +kernel
theorem dX2_sameAs_0 : decode cX2_sameAs 0 = .ok (.aload_n 0, 1) := by decide +kernel
theorem dX2_sameAs_1 : decode cX2_sameAs 1 = .ok (.getfield 9, 3) := by decide +kernel
theorem dX2_sameAs_4 : decode cX2_sameAs 4 = .ok (.aload_n 1, 1) := by decide +kernel
theorem dX2_sameAs_5 : decode cX2_sameAs 5 = .ok (.getfield 9, 3) := by decide +kernel
theorem dX2_sameAs_8 : decode cX2_sameAs 8 = .ok (.lcmp, 1) := by decide +kernel
theorem dX2_sameAs_9 : decode cX2_sameAs 9 = .ok (.ifCond .ne 19, 3) := by decide +kernel
theorem dX2_sameAs_12 : decode cX2_sameAs 12 = .ok (.aload_n 0, 1) := by decide +kernel
theorem dX2_sameAs_13 : decode cX2_sameAs 13 = .ok (.getfield 15, 3) := by decide +kernel
theorem dX2_sameAs_16 : decode cX2_sameAs 16 = .ok (.aload_n 1, 1) := by decide +kernel
theorem dX2_sameAs_17 : decode cX2_sameAs 17 = .ok (.getfield 15, 3) := by decide +kernel
theorem dX2_sameAs_20 : decode cX2_sameAs 20 = .ok (.lcmp, 1) := by decide +kernel
theorem dX2_sameAs_21 : decode cX2_sameAs 21 = .ok (.ifCond .ne 7, 3) := by decide +kernel
theorem dX2_sameAs_24 : decode cX2_sameAs 24 = .ok (.iconst 1, 1) := by decide +kernel
theorem dX2_sameAs_25 : decode cX2_sameAs 25 = .ok (.goto 4, 3) := by decide +kernel
theorem dX2_sameAs_28 : decode cX2_sameAs 28 = .ok (.iconst 0, 1) := by decide +kernel
theorem dX2_sameAs_29 : decode cX2_sameAs 29 = .ok (.ireturn, 1) := by decide +kernel
theorem dX2_comesBefore_0 : decode cX2_comesBefore 0 = .ok (.aload_n 0, 1) := by decide +kernel
theorem dX2_comesBefore_1 : decode cX2_comesBefore 1 = .ok (.getfield 9, 3) := by decide +kernel
theorem dX2_comesBefore_4 : decode cX2_comesBefore 4 = .ok (.aload_n 1, 1) := by decide +kernel
theorem dX2_comesBefore_5 : decode cX2_comesBefore 5 = .ok (.getfield 9, 3) := by decide +kernel
theorem dX2_comesBefore_8 : decode cX2_comesBefore 8 = .ok (.lxor, 1) := by decide +kernel
theorem dX2_comesBefore_9 : decode cX2_comesBefore 9 = .ok (.lstore_n 2, 1) := by decide +kernel
theorem dX2_comesBefore_10 : decode cX2_comesBefore 10 = .ok (.lload_n 2, 1) := by decide +kernel
theorem dX2_comesBefore_11 : decode cX2_comesBefore 11 = .ok (.lconst 0, 1) := by decide +kernel
theorem dX2_comesBefore_12 : decode cX2_comesBefore 12 = .ok (.lcmp, 1) := by decide +kernel
theorem dX2_comesBefore_13 : decode cX2_comesBefore 13 = .ok (.ifCond .eq 23, 3) := by decide +kernel
theorem dX2_comesBefore_16 : decode cX2_comesBefore 16 = .ok (.aload_n 0, 1) := by decide +kernel
theorem dX2_comesBefore_17 : decode cX2_comesBefore 17 = .ok (.getfield 9, 3) := by decide +kernel
theorem dX2_comesBefore_20 : decode cX2_comesBefore 20 = .ok (.lload_n 2, 1) := by decide +kernel
theorem dX2_comesBefore_21 : decode cX2_comesBefore 21 = .ok (.land, 1) := by decide +kernel
theorem dX2_comesBefore_22 : decode cX2_comesBefore 22 = .ok (.lload_n 2, 1) := by decide +kernel
theorem dX2_comesBefore_23 : decode cX2_comesBefore 23 = .ok (.lneg, 1) := by decide +kernel
theorem dX2_comesBefore_24 : decode cX2_comesBefore 24 = .ok (.land, 1) := by decide +kernel
theorem dX2_comesBefore_25 : decode cX2_comesBefore 25 = .ok (.lconst 0, 1) := by decide +kernel
theorem dX2_comesBefore_26 : decode cX2_comesBefore 26 = .ok (.lcmp, 1) := by decide +kernel
theorem dX2_comesBefore_27 : decode cX2_comesBefore 27 = .ok (.ifCond .eq 7, 3) := by decide +kernel
theorem dX2_comesBefore_30 : decode cX2_comesBefore 30 = .ok (.iconst 1, 1) := by decide +kernel
theorem dX2_comesBefore_31 : decode cX2_comesBefore 31 = .ok (.goto 4, 3) := by decide +kernel
theorem dX2_comesBefore_34 : decode cX2_comesBefore 34 = .ok (.iconst 0, 1) := by decide +kernel
theorem dX2_comesBefore_35 : decode cX2_comesBefore 35 = .ok (.ireturn, 1) := by decide +kernel
theorem dX2_comesBefore_36 : decode cX2_comesBefore 36 = .ok (.aload_n 0, 1) := by decide +kernel
theorem dX2_comesBefore_37 : decode cX2_comesBefore 37 = .ok (.getfield 15, 3) := by decide +kernel
theorem dX2_comesBefore_40 : decode cX2_comesBefore 40 = .ok (.aload_n 1, 1) := by decide +kernel
theorem dX2_comesBefore_41 : decode cX2_comesBefore 41 = .ok (.getfield 15, 3) := by decide +kernel
theorem dX2_comesBefore_44 : decode cX2_comesBefore 44 = .ok (.lxor, 1) := by decide +kernel
theorem dX2_comesBefore_45 : decode cX2_comesBefore 45 = .ok (.lstore_n 2, 1) := by decide +kernel
theorem dX2_comesBefore_46 : decode cX2_comesBefore 46 = .ok (.aload_n 0, 1) := by decide +kernel
theorem dX2_comesBefore_47 : decode cX2_comesBefore 47 = .ok (.getfield 15, 3) := by decide +kernel
theorem dX2_comesBefore_50 : decode cX2_comesBefore 50 = .ok (.lload_n 2, 1) := by decide +kernel
theorem dX2_comesBefore_51 : decode cX2_comesBefore 51 = .ok (.land, 1) := by decide +kernel
theorem dX2_comesBefore_52 : decode cX2_comesBefore 52 = .ok (.lload_n 2, 1) := by decide +kernel
theorem dX2_comesBefore_53 : decode cX2_comesBefore 53 = .ok (.lneg, 1) := by decide +kernel
theorem dX2_comesBefore_54 : decode cX2_comesBefore 54 = .ok (.land, 1) := by decide +kernel
theorem dX2_comesBefore_55 : decode cX2_comesBefore 55 = .ok (.lconst 0, 1) := by decide +kernel
theorem dX2_comesBefore_56 : decode cX2_comesBefore 56 = .ok (.lcmp, 1) := by decide +kernel
theorem dX2_comesBefore_57 : decode cX2_comesBefore 57 = .ok (.ifCond .eq 7, 3) := by decide +kernel
theorem dX2_comesBefore_60 : decode cX2_comesBefore 60 = .ok (.iconst 1, 1) := by decide +kernel
theorem dX2_comesBefore_61 : decode cX2_comesBefore 61 = .ok (.goto 4, 3) := by decide +kernel
theorem dX2_comesBefore_64 : decode cX2_comesBefore 64 = .ok (.iconst 0, 1) := by decide +kernel
theorem dX2_comesBefore_65 : decode cX2_comesBefore 65 = .ok (.ireturn, 1) := by decide +kernel
set_option maxRecDepth 20000 in
theorem ggX2_count_J13_bitCount_95d88 : GoodIn wsX2_count wsJ13_bitCount_95d88 := goodIn_r _ [6, 7, 8, 9] (by decide +kernel) (by decide +kernel)
set_option maxRecDepth 20000 in
theorem gX2_count_J13_bitCount_95d88 : GoodIn wsX2_count (va_wsS RX2 35 yJ13_bitCount_95d88 wsJ13_bitCount_95d88) := goodIn_app (goodIn_of _ (by decide +kernel)) ggX2_count_J13_bitCount_95d88
theorem dX2_count_0 : decode cX2_count 0 = .ok (.aload_n 0, 1) := by decide +kernel
theorem dX2_count_1 : decode cX2_count 1 = .ok (.getfield 9, 3) := by decide +kernel
theorem dX2_count_4 : decode cX2_count 4 = .ok (.invokestatic 35, 3) := by decide +kernel
theorem dX2_count_7 : decode cX2_count 7 = .ok (.aload_n 0, 1) := by decide +kernel
theorem dX2_count_8 : decode cX2_count 8 = .ok (.getfield 15, 3) := by decide +kernel
theorem dX2_count_11 : decode cX2_count 11 = .ok (.invokestatic 35, 3) := by decide +kernel
theorem dX2_count_14 : decode cX2_count 14 = .ok (.iadd, 1) := by decide +kernel
theorem dX2_count_15 : decode cX2_count 15 = .ok (.ireturn, 1) := by decide +kernel
set_option maxRecDepth 20000 in
theorem ggX2_total_X2_holds : GoodIn wsX2_total wsX2_holds := goodIn_r _ [5, 6, 7, 8, 9] (by decide +kernel) (by decide +kernel)
set_option maxRecDepth 20000 in
theorem gX2_total_X2_holds : GoodIn wsX2_total (wsV RX2 18 RX2 yX2_holds wsX2_holds) := goodIn_app (goodIn_of _ (by decide +kernel)) ggX2_total_X2_holds
theorem dX2_total_0 : decode cX2_total 0 = .ok (.iconst 0, 1) := by decide +kernel
theorem dX2_total_1 : decode cX2_total 1 = .ok (.istore_n 1, 1) := by decide +kernel
theorem dX2_total_2 : decode cX2_total 2 = .ok (.iconst 1, 1) := by decide +kernel
theorem dX2_total_3 : decode cX2_total 3 = .ok (.istore_n 2, 1) := by decide +kernel
theorem dX2_total_4 : decode cX2_total 4 = .ok (.iload_n 2, 1) := by decide +kernel
theorem dX2_total_5 : decode cX2_total 5 = .ok (.bipush 102, 2) := by decide +kernel
theorem dX2_total_7 : decode cX2_total 7 = .ok (.if_icmp .ge 24, 3) := by decide +kernel
theorem dX2_total_10 : decode cX2_total 10 = .ok (.aload_n 0, 1) := by decide +kernel
theorem dX2_total_11 : decode cX2_total 11 = .ok (.iload_n 2, 1) := by decide +kernel
theorem dX2_total_12 : decode cX2_total 12 = .ok (.invokevirtual 18, 3) := by decide +kernel
theorem dX2_total_15 : decode cX2_total 15 = .ok (.ifCond .eq 10, 3) := by decide +kernel
theorem dX2_total_18 : decode cX2_total 18 = .ok (.iload_n 1, 1) := by decide +kernel
theorem dX2_total_19 : decode cX2_total 19 = .ok (.iload_n 2, 1) := by decide +kernel
theorem dX2_total_20 : decode cX2_total 20 = .ok (.bipush 51, 2) := by decide +kernel
theorem dX2_total_22 : decode cX2_total 22 = .ok (.isub, 1) := by decide +kernel
theorem dX2_total_23 : decode cX2_total 23 = .ok (.iadd, 1) := by decide +kernel
theorem dX2_total_24 : decode cX2_total 24 = .ok (.istore_n 1, 1) := by decide +kernel
theorem dX2_total_25 : decode cX2_total 25 = .ok (.iinc 2 1, 3) := by decide +kernel
theorem dX2_total_28 : decode cX2_total 28 = .ok (.goto (-24), 3) := by decide +kernel
theorem dX2_total_31 : decode cX2_total 31 = .ok (.iload_n 1, 1) := by decide +kernel
theorem dX2_total_32 : decode cX2_total 32 = .ok (.ireturn, 1) := by decide +kernel
set_option maxRecDepth 20000 in
theorem ggX2_indexAt_X2_holds : GoodIn wsX2_indexAt wsX2_holds := goodIn_r _ [5, 6, 7, 8, 9] (by decide +kernel) (by decide +kernel)
set_option maxRecDepth 20000 in
theorem gX2_indexAt_X2_holds : GoodIn wsX2_indexAt (wsV RX2 18 RX2 yX2_holds wsX2_holds) := goodIn_app (goodIn_of _ (by decide +kernel)) ggX2_indexAt_X2_holds
theorem dX2_indexAt_0 : decode cX2_indexAt 0 = .ok (.iload_n 1, 1) := by decide +kernel
theorem dX2_indexAt_1 : decode cX2_indexAt 1 = .ok (.ifCond .ge 5, 3) := by decide +kernel
theorem dX2_indexAt_4 : decode cX2_indexAt 4 = .ok (.iconst (-1), 1) := by decide +kernel
theorem dX2_indexAt_5 : decode cX2_indexAt 5 = .ok (.ireturn, 1) := by decide +kernel
theorem dX2_indexAt_6 : decode cX2_indexAt 6 = .ok (.iconst 0, 1) := by decide +kernel
theorem dX2_indexAt_7 : decode cX2_indexAt 7 = .ok (.istore_n 2, 1) := by decide +kernel
theorem dX2_indexAt_8 : decode cX2_indexAt 8 = .ok (.iconst 0, 1) := by decide +kernel
theorem dX2_indexAt_9 : decode cX2_indexAt 9 = .ok (.istore_n 3, 1) := by decide +kernel
theorem dX2_indexAt_10 : decode cX2_indexAt 10 = .ok (.iload_n 3, 1) := by decide +kernel
theorem dX2_indexAt_11 : decode cX2_indexAt 11 = .ok (.bipush 102, 2) := by decide +kernel
theorem dX2_indexAt_13 : decode cX2_indexAt 13 = .ok (.if_icmp .ge 27, 3) := by decide +kernel
theorem dX2_indexAt_16 : decode cX2_indexAt 16 = .ok (.aload_n 0, 1) := by decide +kernel
theorem dX2_indexAt_17 : decode cX2_indexAt 17 = .ok (.iload_n 3, 1) := by decide +kernel
theorem dX2_indexAt_18 : decode cX2_indexAt 18 = .ok (.invokevirtual 18, 3) := by decide +kernel
theorem dX2_indexAt_21 : decode cX2_indexAt 21 = .ok (.ifCond .eq 13, 3) := by decide +kernel
theorem dX2_indexAt_24 : decode cX2_indexAt 24 = .ok (.iload_n 2, 1) := by decide +kernel
theorem dX2_indexAt_25 : decode cX2_indexAt 25 = .ok (.iload_n 1, 1) := by decide +kernel
theorem dX2_indexAt_26 : decode cX2_indexAt 26 = .ok (.if_icmp .ne 5, 3) := by decide +kernel
theorem dX2_indexAt_29 : decode cX2_indexAt 29 = .ok (.iload_n 3, 1) := by decide +kernel
theorem dX2_indexAt_30 : decode cX2_indexAt 30 = .ok (.ireturn, 1) := by decide +kernel
theorem dX2_indexAt_31 : decode cX2_indexAt 31 = .ok (.iinc 2 1, 3) := by decide +kernel
theorem dX2_indexAt_34 : decode cX2_indexAt 34 = .ok (.iinc 3 1, 3) := by decide +kernel
theorem dX2_indexAt_37 : decode cX2_indexAt 37 = .ok (.goto (-27), 3) := by decide +kernel
theorem dX2_indexAt_40 : decode cX2_indexAt 40 = .ok (.iconst (-1), 1) := by decide +kernel
theorem dX2_indexAt_41 : decode cX2_indexAt 41 = .ok (.ireturn, 1) := by decide +kernel
set_option maxRecDepth 20000 in
theorem ggX2_firstNumber_X2_holds : GoodIn wsX2_firstNumber wsX2_holds := goodIn_r _ [5, 6, 7, 8, 9] (by decide +kernel) (by decide +kernel)
set_option maxRecDepth 20000 in
theorem gX2_firstNumber_X2_holds : GoodIn wsX2_firstNumber (wsV RX2 18 RX2 yX2_holds wsX2_holds) := goodIn_app (goodIn_of _ (by decide +kernel)) ggX2_firstNumber_X2_holds
theorem dX2_firstNumber_0 : decode cX2_firstNumber 0 = .ok (.iconst 1, 1) := by decide +kernel
theorem dX2_firstNumber_1 : decode cX2_firstNumber 1 = .ok (.istore_n 1, 1) := by decide +kernel
theorem dX2_firstNumber_2 : decode cX2_firstNumber 2 = .ok (.iload_n 1, 1) := by decide +kernel
theorem dX2_firstNumber_3 : decode cX2_firstNumber 3 = .ok (.bipush 102, 2) := by decide +kernel
theorem dX2_firstNumber_5 : decode cX2_firstNumber 5 = .ok (.if_icmp .ge 19, 3) := by decide +kernel
theorem dX2_firstNumber_8 : decode cX2_firstNumber 8 = .ok (.aload_n 0, 1) := by decide +kernel
theorem dX2_firstNumber_9 : decode cX2_firstNumber 9 = .ok (.iload_n 1, 1) := by decide +kernel
theorem dX2_firstNumber_10 : decode cX2_firstNumber 10 = .ok (.invokevirtual 18, 3) := by decide +kernel
theorem dX2_firstNumber_13 : decode cX2_firstNumber 13 = .ok (.ifCond .eq 5, 3) := by decide +kernel
theorem dX2_firstNumber_16 : decode cX2_firstNumber 16 = .ok (.iload_n 1, 1) := by decide +kernel
theorem dX2_firstNumber_17 : decode cX2_firstNumber 17 = .ok (.ireturn, 1) := by decide +kernel
theorem dX2_firstNumber_18 : decode cX2_firstNumber 18 = .ok (.iinc 1 1, 3) := by decide +kernel
theorem dX2_firstNumber_21 : decode cX2_firstNumber 21 = .ok (.goto (-19), 3) := by decide +kernel
theorem dX2_firstNumber_24 : decode cX2_firstNumber 24 = .ok (.iconst (-1), 1) := by decide +kernel
theorem dX2_firstNumber_25 : decode cX2_firstNumber 25 = .ok (.ireturn, 1) := by decide +kernel
set_option maxRecDepth 20000 in
theorem ggX2_lastNumber_X2_holds : GoodIn wsX2_lastNumber wsX2_holds := goodIn_r _ [5, 6, 7, 8, 9] (by decide +kernel) (by decide +kernel)
set_option maxRecDepth 20000 in
theorem gX2_lastNumber_X2_holds : GoodIn wsX2_lastNumber (wsV RX2 18 RX2 yX2_holds wsX2_holds) := goodIn_app (goodIn_of _ (by decide +kernel)) ggX2_lastNumber_X2_holds
theorem dX2_lastNumber_0 : decode cX2_lastNumber 0 = .ok (.bipush 101, 2) := by decide +kernel
theorem dX2_lastNumber_2 : decode cX2_lastNumber 2 = .ok (.istore_n 1, 1) := by decide +kernel
theorem dX2_lastNumber_3 : decode cX2_lastNumber 3 = .ok (.iload_n 1, 1) := by decide +kernel
theorem dX2_lastNumber_4 : decode cX2_lastNumber 4 = .ok (.ifCond .le 19, 3) := by decide +kernel
theorem dX2_lastNumber_7 : decode cX2_lastNumber 7 = .ok (.aload_n 0, 1) := by decide +kernel
theorem dX2_lastNumber_8 : decode cX2_lastNumber 8 = .ok (.iload_n 1, 1) := by decide +kernel
theorem dX2_lastNumber_9 : decode cX2_lastNumber 9 = .ok (.invokevirtual 18, 3) := by decide +kernel
theorem dX2_lastNumber_12 : decode cX2_lastNumber 12 = .ok (.ifCond .eq 5, 3) := by decide +kernel
theorem dX2_lastNumber_15 : decode cX2_lastNumber 15 = .ok (.iload_n 1, 1) := by decide +kernel
theorem dX2_lastNumber_16 : decode cX2_lastNumber 16 = .ok (.ireturn, 1) := by decide +kernel
theorem dX2_lastNumber_17 : decode cX2_lastNumber 17 = .ok (.iinc 1 (-1), 3) := by decide +kernel
theorem dX2_lastNumber_20 : decode cX2_lastNumber 20 = .ok (.goto (-17), 3) := by decide +kernel
theorem dX2_lastNumber_23 : decode cX2_lastNumber 23 = .ok (.iconst (-1), 1) := by decide +kernel
theorem dX2_lastNumber_24 : decode cX2_lastNumber 24 = .ok (.ireturn, 1) := by decide +kernel
