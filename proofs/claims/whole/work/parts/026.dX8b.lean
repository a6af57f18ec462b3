set_option maxRecDepth 20000 in
theorem ggX8_spreads_X8_copies : GoodIn wsX8_spreads wsX8_copies := goodIn_r _ [9] (by decide +kernel) (by decide +kernel)
set_option maxRecDepth 20000 in
theorem gX8_spreads_X8_copies : GoodIn wsX8_spreads (va_wsS RX8 95 yX8_copies wsX8_copies) := goodIn_app (goodIn_of _ (by decide +kernel)) ggX8_spreads_X8_copies
set_option maxRecDepth 20000 in
theorem ggX8_spreads_X8_joins : GoodIn wsX8_spreads wsX8_joins := goodIn_r _ [12] (by decide +kernel) (by decide +kernel)
set_option maxRecDepth 20000 in
theorem gX8_spreads_X8_joins : GoodIn wsX8_spreads (va_wsS RX8 87 yX8_joins wsX8_joins) := goodIn_app (goodIn_of _ (by decide +kernel)) ggX8_spreads_X8_joins
set_option maxRecDepth 20000 in
theorem ggX8_spreads_X8_find : GoodIn wsX8_spreads wsX8_find := goodIn_r _ [15, 16, 17, 8, 18, 19, 20, 21] (by decide +kernel) (by decide +kernel)
set_option maxRecDepth 20000 in
theorem gX8_spreads_X8_find : GoodIn wsX8_spreads (va_wsS RX8 115 yX8_find wsX8_find) := goodIn_app (goodIn_of _ (by decide +kernel)) ggX8_spreads_X8_find
set_option maxRecDepth 20000 in
theorem ggX8_spreads_X8_inserts : GoodIn wsX8_spreads wsX8_inserts := goodIn_r _ [24, 25, 26, 8, 27, 19, 20, 21, 6, 7, 9] (by decide +kernel) (by decide +kernel)
set_option maxRecDepth 20000 in
theorem gX8_spreads_X8_inserts : GoodIn wsX8_spreads (va_wsS RX8 119 yX8_inserts wsX8_inserts) := goodIn_app (goodIn_of _ (by decide +kernel)) ggX8_spreads_X8_inserts
theorem dX8_spreads_0 : decode cX8_spreads 0 = .ok (.iconst 0, 1) := by decide +kernel
theorem dX8_spreads_1 : decode cX8_spreads 1 = .ok (.istore_n 2, 1) := by decide +kernel
theorem dX8_spreads_2 : decode cX8_spreads 2 = .ok (.iload_n 2, 1) := by decide +kernel
theorem dX8_spreads_3 : decode cX8_spreads 3 = .ok (.aload_n 0, 1) := by decide +kernel
theorem dX8_spreads_4 : decode cX8_spreads 4 = .ok (.getfield 59, 3) := by decide +kernel
theorem dX8_spreads_7 : decode cX8_spreads 7 = .ok (.if_icmp .ge 24, 3) := by decide +kernel
theorem dX8_spreads_10 : decode cX8_spreads 10 = .ok (.aload_n 0, 1) := by decide +kernel
theorem dX8_spreads_11 : decode cX8_spreads 11 = .ok (.getfield 34, 3) := by decide +kernel
theorem dX8_spreads_14 : decode cX8_spreads 14 = .ok (.iload_n 2, 1) := by decide +kernel
theorem dX8_spreads_15 : decode cX8_spreads 15 = .ok (.aaload, 1) := by decide +kernel
theorem dX8_spreads_16 : decode cX8_spreads 16 = .ok (.aload_n 0, 1) := by decide +kernel
theorem dX8_spreads_17 : decode cX8_spreads 17 = .ok (.getfield 37, 3) := by decide +kernel
theorem dX8_spreads_20 : decode cX8_spreads 20 = .ok (.iload_n 2, 1) := by decide +kernel
theorem dX8_spreads_21 : decode cX8_spreads 21 = .ok (.aaload, 1) := by decide +kernel
theorem dX8_spreads_22 : decode cX8_spreads 22 = .ok (.invokestatic 95, 3) := by decide +kernel
theorem dX8_spreads_25 : decode cX8_spreads 25 = .ok (.iinc 2 1, 3) := by decide +kernel
theorem dX8_spreads_28 : decode cX8_spreads 28 = .ok (.goto (-26), 3) := by decide +kernel
theorem dX8_spreads_31 : decode cX8_spreads 31 = .ok (.aload_n 0, 1) := by decide +kernel
theorem dX8_spreads_32 : decode cX8_spreads 32 = .ok (.aload_n 0, 1) := by decide +kernel
theorem dX8_spreads_33 : decode cX8_spreads 33 = .ok (.getfield 59, 3) := by decide +kernel
theorem dX8_spreads_36 : decode cX8_spreads 36 = .ok (.putfield 123, 3) := by decide +kernel
theorem dX8_spreads_39 : decode cX8_spreads 39 = .ok (.iconst 0, 1) := by decide +kernel
theorem dX8_spreads_40 : decode cX8_spreads 40 = .ok (.istore_n 2, 1) := by decide +kernel
theorem dX8_spreads_41 : decode cX8_spreads 41 = .ok (.iload_n 2, 1) := by decide +kernel
theorem dX8_spreads_42 : decode cX8_spreads 42 = .ok (.aload_n 0, 1) := by decide +kernel
theorem dX8_spreads_43 : decode cX8_spreads 43 = .ok (.getfield 59, 3) := by decide +kernel
theorem dX8_spreads_46 : decode cX8_spreads 46 = .ok (.if_icmp .ge 105, 3) := by decide +kernel
theorem dX8_spreads_49 : decode cX8_spreads 49 = .ok (.iconst 0, 1) := by decide +kernel
theorem dX8_spreads_50 : decode cX8_spreads 50 = .ok (.istore_n 3, 1) := by decide +kernel
theorem dX8_spreads_51 : decode cX8_spreads 51 = .ok (.iload_n 3, 1) := by decide +kernel
theorem dX8_spreads_52 : decode cX8_spreads 52 = .ok (.aload_n 0, 1) := by decide +kernel
theorem dX8_spreads_53 : decode cX8_spreads 53 = .ok (.getfield 59, 3) := by decide +kernel
theorem dX8_spreads_56 : decode cX8_spreads 56 = .ok (.if_icmp .ge 89, 3) := by decide +kernel
theorem dX8_spreads_59 : decode cX8_spreads 59 = .ok (.aload_n 0, 1) := by decide +kernel
theorem dX8_spreads_60 : decode cX8_spreads 60 = .ok (.getfield 34, 3) := by decide +kernel
theorem dX8_spreads_63 : decode cX8_spreads 63 = .ok (.iload_n 2, 1) := by decide +kernel
theorem dX8_spreads_64 : decode cX8_spreads 64 = .ok (.aaload, 1) := by decide +kernel
theorem dX8_spreads_65 : decode cX8_spreads 65 = .ok (.aload_n 0, 1) := by decide +kernel
theorem dX8_spreads_66 : decode cX8_spreads 66 = .ok (.getfield 34, 3) := by decide +kernel
theorem dX8_spreads_69 : decode cX8_spreads 69 = .ok (.iload_n 3, 1) := by decide +kernel
theorem dX8_spreads_70 : decode cX8_spreads 70 = .ok (.aaload, 1) := by decide +kernel
theorem dX8_spreads_71 : decode cX8_spreads 71 = .ok (.iload_n 1, 1) := by decide +kernel
theorem dX8_spreads_72 : decode cX8_spreads 72 = .ok (.aload_n 0, 1) := by decide +kernel
theorem dX8_spreads_73 : decode cX8_spreads 73 = .ok (.getfield 30, 3) := by decide +kernel
theorem dX8_spreads_76 : decode cX8_spreads 76 = .ok (.invokestatic 87, 3) := by decide +kernel
theorem dX8_spreads_79 : decode cX8_spreads 79 = .ok (.iload_n 2, 1) := by decide +kernel
theorem dX8_spreads_80 : decode cX8_spreads 80 = .ok (.iload_n 3, 1) := by decide +kernel
theorem dX8_spreads_81 : decode cX8_spreads 81 = .ok (.if_icmp .eq 58, 3) := by decide +kernel
theorem dX8_spreads_84 : decode cX8_spreads 84 = .ok (.aload_n 0, 1) := by decide +kernel
theorem dX8_spreads_85 : decode cX8_spreads 85 = .ok (.getfield 37, 3) := by decide +kernel
theorem dX8_spreads_88 : decode cX8_spreads 88 = .ok (.aload_n 0, 1) := by decide +kernel
theorem dX8_spreads_89 : decode cX8_spreads 89 = .ok (.getfield 123, 3) := by decide +kernel
theorem dX8_spreads_92 : decode cX8_spreads 92 = .ok (.aload_n 0, 1) := by decide +kernel
theorem dX8_spreads_93 : decode cX8_spreads 93 = .ok (.getfield 30, 3) := by decide +kernel
theorem dX8_spreads_96 : decode cX8_spreads 96 = .ok (.invokestatic 115, 3) := by decide +kernel
theorem dX8_spreads_99 : decode cX8_spreads 99 = .ok (.iconst (-1), 1) := by decide +kernel
theorem dX8_spreads_100 : decode cX8_spreads 100 = .ok (.if_icmp .ne 39, 3) := by decide +kernel
theorem dX8_spreads_103 : decode cX8_spreads 103 = .ok (.aload_n 0, 1) := by decide +kernel
theorem dX8_spreads_104 : decode cX8_spreads 104 = .ok (.getfield 123, 3) := by decide +kernel
theorem dX8_spreads_107 : decode cX8_spreads 107 = .ok (.bipush 7, 2) := by decide +kernel
theorem dX8_spreads_109 : decode cX8_spreads 109 = .ok (.if_icmp .ne 5, 3) := by decide +kernel
theorem dX8_spreads_112 : decode cX8_spreads 112 = .ok (.iconst 0, 1) := by decide +kernel
theorem dX8_spreads_113 : decode cX8_spreads 113 = .ok (.ireturn, 1) := by decide +kernel
theorem dX8_spreads_114 : decode cX8_spreads 114 = .ok (.aload_n 0, 1) := by decide +kernel
theorem dX8_spreads_115 : decode cX8_spreads 115 = .ok (.getfield 37, 3) := by decide +kernel
theorem dX8_spreads_118 : decode cX8_spreads 118 = .ok (.aload_n 0, 1) := by decide +kernel
theorem dX8_spreads_119 : decode cX8_spreads 119 = .ok (.getfield 123, 3) := by decide +kernel
theorem dX8_spreads_122 : decode cX8_spreads 122 = .ok (.aload_n 0, 1) := by decide +kernel
theorem dX8_spreads_123 : decode cX8_spreads 123 = .ok (.getfield 30, 3) := by decide +kernel
theorem dX8_spreads_126 : decode cX8_spreads 126 = .ok (.invokestatic 119, 3) := by decide +kernel
theorem dX8_spreads_129 : decode cX8_spreads 129 = .ok (.aload_n 0, 1) := by decide +kernel
theorem dX8_spreads_130 : decode cX8_spreads 130 = .ok (.dup, 1) := by decide +kernel
theorem dX8_spreads_131 : decode cX8_spreads 131 = .ok (.getfield 123, 3) := by decide +kernel
theorem dX8_spreads_134 : decode cX8_spreads 134 = .ok (.iconst 1, 1) := by decide +kernel
theorem dX8_spreads_135 : decode cX8_spreads 135 = .ok (.iadd, 1) := by decide +kernel
theorem dX8_spreads_136 : decode cX8_spreads 136 = .ok (.putfield 123, 3) := by decide +kernel
theorem dX8_spreads_139 : decode cX8_spreads 139 = .ok (.iinc 3 1, 3) := by decide +kernel
theorem dX8_spreads_142 : decode cX8_spreads 142 = .ok (.goto (-91), 3) := by decide +kernel
theorem dX8_spreads_145 : decode cX8_spreads 145 = .ok (.iinc 2 1, 3) := by decide +kernel
theorem dX8_spreads_148 : decode cX8_spreads 148 = .ok (.goto (-107), 3) := by decide +kernel
theorem dX8_spreads_151 : decode cX8_spreads 151 = .ok (.iconst 1, 1) := by decide +kernel
theorem dX8_spreads_152 : decode cX8_spreads 152 = .ok (.ireturn, 1) := by decide +kernel
set_option maxRecDepth 20000 in
theorem ggX8_spread_X8_in : GoodIn wsX8_spread wsX8_in := goodIn_r _ [8] (by decide +kernel) (by decide +kernel)
set_option maxRecDepth 20000 in
theorem gX8_spread_X8_in : GoodIn wsX8_spread (va_wsS RX8 7 yX8_in wsX8_in) := goodIn_app (goodIn_of _ (by decide +kernel)) ggX8_spread_X8_in
set_option maxRecDepth 20000 in
theorem ggX8_spread_X8_passes : GoodIn wsX8_spread wsX8_passes := goodIn_r _ [12, 13, 40, 41, 42, 43, 44, 45, 46, 47, 48, 49, 50, 51, 52, 53, 54, 55, 56, 57, 58] (by decide +kernel) (by decide +kernel)
set_option maxRecDepth 20000 in
theorem gX8_spread_X8_passes : GoodIn wsX8_spread (wsV RX8 72 RX8 yX8_passes wsX8_passes) := goodIn_app (goodIn_of _ (by decide +kernel)) ggX8_spread_X8_passes
set_option maxRecDepth 20000 in
theorem ggX8_spread_X8_spreads : GoodIn wsX8_spread wsX8_spreads := goodIn_r _ [17, 2, 4, 3, 1, 18, 19, 20, 7, 21, 22, 23, 24, 25, 26, 27, 28, 29, 30, 31, 32, 33, 34, 35, 36, 37, 38, 39, 40, 41, 42, 43, 44, 45, 46, 47, 48, 49, 50, 51, 52, 53, 54, 55, 56, 57, 58] (by decide +kernel) (by decide +kernel)
set_option maxRecDepth 20000 in
theorem gX8_spread_X8_spreads : GoodIn wsX8_spread (wsV RX8 126 RX8 yX8_spreads wsX8_spreads) := goodIn_app (goodIn_of _ (by decide +kernel)) ggX8_spread_X8_spreads
set_option maxRecDepth 20000 in
theorem ggX8_spread_X8_copies : GoodIn wsX8_spread wsX8_copies := goodIn_r _ [21] (by decide +kernel) (by decide +kernel)
set_option maxRecDepth 20000 in
theorem gX8_spread_X8_copies : GoodIn wsX8_spread (va_wsS RX8 95 yX8_copies wsX8_copies) := goodIn_app (goodIn_of _ (by decide +kernel)) ggX8_spread_X8_copies
theorem dX8_spread_0 : decode cX8_spread 0 = .ok (.aload_n 0, 1) := by decide +kernel
theorem dX8_spread_1 : decode cX8_spread 1 = .ok (.iload_n 1, 1) := by decide +kernel
theorem dX8_spread_2 : decode cX8_spread 2 = .ok (.iconst 0, 1) := by decide +kernel
theorem dX8_spread_3 : decode cX8_spread 3 = .ok (.iconst 2, 1) := by decide +kernel
theorem dX8_spread_4 : decode cX8_spread 4 = .ok (.invokestatic 7, 3) := by decide +kernel
theorem dX8_spread_7 : decode cX8_spread 7 = .ok (.iconst 1, 1) := by decide +kernel
theorem dX8_spread_8 : decode cX8_spread 8 = .ok (.invokevirtual 72, 3) := by decide +kernel
theorem dX8_spread_11 : decode cX8_spread 11 = .ok (.ifCond .ne 5, 3) := by decide +kernel
theorem dX8_spread_14 : decode cX8_spread 14 = .ok (.iconst 0, 1) := by decide +kernel
theorem dX8_spread_15 : decode cX8_spread 15 = .ok (.ireturn, 1) := by decide +kernel
theorem dX8_spread_16 : decode cX8_spread 16 = .ok (.aload_n 0, 1) := by decide +kernel
theorem dX8_spread_17 : decode cX8_spread 17 = .ok (.iload_n 1, 1) := by decide +kernel
theorem dX8_spread_18 : decode cX8_spread 18 = .ok (.invokevirtual 126, 3) := by decide +kernel
theorem dX8_spread_21 : decode cX8_spread 21 = .ok (.ifCond .ne 5, 3) := by decide +kernel
theorem dX8_spread_24 : decode cX8_spread 24 = .ok (.iconst (-1), 1) := by decide +kernel
theorem dX8_spread_25 : decode cX8_spread 25 = .ok (.ireturn, 1) := by decide +kernel
theorem dX8_spread_26 : decode cX8_spread 26 = .ok (.aload_n 0, 1) := by decide +kernel
theorem dX8_spread_27 : decode cX8_spread 27 = .ok (.getfield 123, 3) := by decide +kernel
theorem dX8_spread_30 : decode cX8_spread 30 = .ok (.aload_n 0, 1) := by decide +kernel
theorem dX8_spread_31 : decode cX8_spread 31 = .ok (.getfield 59, 3) := by decide +kernel
theorem dX8_spread_34 : decode cX8_spread 34 = .ok (.isub, 1) := by decide +kernel
theorem dX8_spread_35 : decode cX8_spread 35 = .ok (.istore_n 2, 1) := by decide +kernel
theorem dX8_spread_36 : decode cX8_spread 36 = .ok (.iconst 0, 1) := by decide +kernel
theorem dX8_spread_37 : decode cX8_spread 37 = .ok (.istore_n 3, 1) := by decide +kernel
theorem dX8_spread_38 : decode cX8_spread 38 = .ok (.iload_n 3, 1) := by decide +kernel
theorem dX8_spread_39 : decode cX8_spread 39 = .ok (.aload_n 0, 1) := by decide +kernel
theorem dX8_spread_40 : decode cX8_spread 40 = .ok (.getfield 123, 3) := by decide +kernel
theorem dX8_spread_43 : decode cX8_spread 43 = .ok (.if_icmp .ge 24, 3) := by decide +kernel
theorem dX8_spread_46 : decode cX8_spread 46 = .ok (.aload_n 0, 1) := by decide +kernel
theorem dX8_spread_47 : decode cX8_spread 47 = .ok (.getfield 37, 3) := by decide +kernel
theorem dX8_spread_50 : decode cX8_spread 50 = .ok (.iload_n 3, 1) := by decide +kernel
theorem dX8_spread_51 : decode cX8_spread 51 = .ok (.aaload, 1) := by decide +kernel
theorem dX8_spread_52 : decode cX8_spread 52 = .ok (.aload_n 0, 1) := by decide +kernel
theorem dX8_spread_53 : decode cX8_spread 53 = .ok (.getfield 34, 3) := by decide +kernel
theorem dX8_spread_56 : decode cX8_spread 56 = .ok (.iload_n 3, 1) := by decide +kernel
theorem dX8_spread_57 : decode cX8_spread 57 = .ok (.aaload, 1) := by decide +kernel
theorem dX8_spread_58 : decode cX8_spread 58 = .ok (.invokestatic 95, 3) := by decide +kernel
theorem dX8_spread_61 : decode cX8_spread 61 = .ok (.iinc 3 1, 3) := by decide +kernel
theorem dX8_spread_64 : decode cX8_spread 64 = .ok (.goto (-26), 3) := by decide +kernel
theorem dX8_spread_67 : decode cX8_spread 67 = .ok (.aload_n 0, 1) := by decide +kernel
theorem dX8_spread_68 : decode cX8_spread 68 = .ok (.aload_n 0, 1) := by decide +kernel
theorem dX8_spread_69 : decode cX8_spread 69 = .ok (.getfield 123, 3) := by decide +kernel
theorem dX8_spread_72 : decode cX8_spread 72 = .ok (.putfield 59, 3) := by decide +kernel
theorem dX8_spread_75 : decode cX8_spread 75 = .ok (.iload_n 2, 1) := by decide +kernel
theorem dX8_spread_76 : decode cX8_spread 76 = .ok (.ireturn, 1) := by decide +kernel
set_option maxRecDepth 20000 in
theorem ggX8_isClosed_X8_in : GoodIn wsX8_isClosed wsX8_in := goodIn_r _ [6] (by decide +kernel) (by decide +kernel)
set_option maxRecDepth 20000 in
theorem gX8_isClosed_X8_in : GoodIn wsX8_isClosed (va_wsS RX8 7 yX8_in wsX8_in) := goodIn_app (goodIn_of _ (by decide +kernel)) ggX8_isClosed_X8_in
set_option maxRecDepth 20000 in
theorem ggX8_isClosed_X8_passes : GoodIn wsX8_isClosed wsX8_passes := goodIn_r _ [10, 11, 40, 41, 42, 43, 44, 45, 46, 47, 48, 49, 50, 51, 52, 53, 54, 55, 56, 57, 58] (by decide +kernel) (by decide +kernel)
set_option maxRecDepth 20000 in
theorem gX8_isClosed_X8_passes : GoodIn wsX8_isClosed (wsV RX8 72 RX8 yX8_passes wsX8_passes) := goodIn_app (goodIn_of _ (by decide +kernel)) ggX8_isClosed_X8_passes
set_option maxRecDepth 20000 in
theorem ggX8_isClosed_X8_spreads : GoodIn wsX8_isClosed wsX8_spreads := goodIn_r _ [15, 2, 16, 17, 1, 18, 19, 20, 5, 21, 22, 23, 24, 25, 26, 27, 28, 29, 30, 31, 32, 33, 34, 35, 36, 37, 38, 39, 40, 41, 42, 43, 44, 45, 46, 47, 48, 49, 50, 51, 52, 53, 54, 55, 56, 57, 58] (by decide +kernel) (by decide +kernel)
set_option maxRecDepth 20000 in
theorem gX8_isClosed_X8_spreads : GoodIn wsX8_isClosed (wsV RX8 126 RX8 yX8_spreads wsX8_spreads) := goodIn_app (goodIn_of _ (by decide +kernel)) ggX8_isClosed_X8_spreads
theorem dX8_isClosed_0 : decode cX8_isClosed 0 = .ok (.aload_n 0, 1) := by decide +kernel
theorem dX8_isClosed_1 : decode cX8_isClosed 1 = .ok (.iload_n 1, 1) := by decide +kernel
theorem dX8_isClosed_2 : decode cX8_isClosed 2 = .ok (.iconst 0, 1) := by decide +kernel
theorem dX8_isClosed_3 : decode cX8_isClosed 3 = .ok (.iconst 2, 1) := by decide +kernel
theorem dX8_isClosed_4 : decode cX8_isClosed 4 = .ok (.invokestatic 7, 3) := by decide +kernel
theorem dX8_isClosed_7 : decode cX8_isClosed 7 = .ok (.iconst 1, 1) := by decide +kernel
theorem dX8_isClosed_8 : decode cX8_isClosed 8 = .ok (.invokevirtual 72, 3) := by decide +kernel
theorem dX8_isClosed_11 : decode cX8_isClosed 11 = .ok (.ifCond .eq 26, 3) := by decide +kernel
theorem dX8_isClosed_14 : decode cX8_isClosed 14 = .ok (.aload_n 0, 1) := by decide +kernel
theorem dX8_isClosed_15 : decode cX8_isClosed 15 = .ok (.iload_n 1, 1) := by decide +kernel
theorem dX8_isClosed_16 : decode cX8_isClosed 16 = .ok (.invokevirtual 126, 3) := by decide +kernel
theorem dX8_isClosed_19 : decode cX8_isClosed 19 = .ok (.ifCond .eq 18, 3) := by decide +kernel
theorem dX8_isClosed_22 : decode cX8_isClosed 22 = .ok (.aload_n 0, 1) := by decide +kernel
theorem dX8_isClosed_23 : decode cX8_isClosed 23 = .ok (.getfield 123, 3) := by decide +kernel
theorem dX8_isClosed_26 : decode cX8_isClosed 26 = .ok (.aload_n 0, 1) := by decide +kernel
theorem dX8_isClosed_27 : decode cX8_isClosed 27 = .ok (.getfield 59, 3) := by decide +kernel
theorem dX8_isClosed_30 : decode cX8_isClosed 30 = .ok (.if_icmp .ne 7, 3) := by decide +kernel
theorem dX8_isClosed_33 : decode cX8_isClosed 33 = .ok (.iconst 1, 1) := by decide +kernel
theorem dX8_isClosed_34 : decode cX8_isClosed 34 = .ok (.goto 4, 3) := by decide +kernel
theorem dX8_isClosed_37 : decode cX8_isClosed 37 = .ok (.iconst 0, 1) := by decide +kernel
theorem dX8_isClosed_38 : decode cX8_isClosed 38 = .ok (.ireturn, 1) := by decide +kernel
set_option maxRecDepth 20000 in
theorem ggX8_isChain_X8_lies : GoodIn wsX8_isChain wsX8_lies := goodIn_r _ [7] (by decide +kernel) (by decide +kernel)
set_option maxRecDepth 20000 in
theorem gX8_isChain_X8_lies : GoodIn wsX8_isChain (va_wsS RX8 106 yX8_lies wsX8_lies) := goodIn_app (goodIn_of _ (by decide +kernel)) ggX8_isChain_X8_lies
theorem dX8_isChain_0 : decode cX8_isChain 0 = .ok (.aload_n 0, 1) := by decide +kernel
theorem dX8_isChain_1 : decode cX8_isChain 1 = .ok (.iconst 0, 1) := by decide +kernel
theorem dX8_isChain_2 : decode cX8_isChain 2 = .ok (.putfield 3, 3) := by decide +kernel
theorem dX8_isChain_5 : decode cX8_isChain 5 = .ok (.iconst 0, 1) := by decide +kernel
theorem dX8_isChain_6 : decode cX8_isChain 6 = .ok (.istore_n 1, 1) := by decide +kernel
theorem dX8_isChain_7 : decode cX8_isChain 7 = .ok (.iload_n 1, 1) := by decide +kernel
theorem dX8_isChain_8 : decode cX8_isChain 8 = .ok (.aload_n 0, 1) := by decide +kernel
theorem dX8_isChain_9 : decode cX8_isChain 9 = .ok (.getfield 59, 3) := by decide +kernel
theorem dX8_isChain_12 : decode cX8_isChain 12 = .ok (.if_icmp .ge 60, 3) := by decide +kernel
theorem dX8_isChain_15 : decode cX8_isChain 15 = .ok (.iconst 0, 1) := by decide +kernel
theorem dX8_isChain_16 : decode cX8_isChain 16 = .ok (.istore_n 2, 1) := by decide +kernel
theorem dX8_isChain_17 : decode cX8_isChain 17 = .ok (.iload_n 2, 1) := by decide +kernel
theorem dX8_isChain_18 : decode cX8_isChain 18 = .ok (.iload_n 1, 1) := by decide +kernel
theorem dX8_isChain_19 : decode cX8_isChain 19 = .ok (.if_icmp .ge 47, 3) := by decide +kernel
theorem dX8_isChain_22 : decode cX8_isChain 22 = .ok (.aload_n 0, 1) := by decide +kernel
theorem dX8_isChain_23 : decode cX8_isChain 23 = .ok (.getfield 34, 3) := by decide +kernel
theorem dX8_isChain_26 : decode cX8_isChain 26 = .ok (.iload_n 1, 1) := by decide +kernel
theorem dX8_isChain_27 : decode cX8_isChain 27 = .ok (.aaload, 1) := by decide +kernel
theorem dX8_isChain_28 : decode cX8_isChain 28 = .ok (.aload_n 0, 1) := by decide +kernel
theorem dX8_isChain_29 : decode cX8_isChain 29 = .ok (.getfield 34, 3) := by decide +kernel
theorem dX8_isChain_32 : decode cX8_isChain 32 = .ok (.iload_n 2, 1) := by decide +kernel
theorem dX8_isChain_33 : decode cX8_isChain 33 = .ok (.aaload, 1) := by decide +kernel
theorem dX8_isChain_34 : decode cX8_isChain 34 = .ok (.invokestatic 106, 3) := by decide +kernel
theorem dX8_isChain_37 : decode cX8_isChain 37 = .ok (.ifCond .ne 23, 3) := by decide +kernel
theorem dX8_isChain_40 : decode cX8_isChain 40 = .ok (.aload_n 0, 1) := by decide +kernel
theorem dX8_isChain_41 : decode cX8_isChain 41 = .ok (.getfield 34, 3) := by decide +kernel
theorem dX8_isChain_44 : decode cX8_isChain 44 = .ok (.iload_n 2, 1) := by decide +kernel
theorem dX8_isChain_45 : decode cX8_isChain 45 = .ok (.aaload, 1) := by decide +kernel
theorem dX8_isChain_46 : decode cX8_isChain 46 = .ok (.aload_n 0, 1) := by decide +kernel
theorem dX8_isChain_47 : decode cX8_isChain 47 = .ok (.getfield 34, 3) := by decide +kernel
theorem dX8_isChain_50 : decode cX8_isChain 50 = .ok (.iload_n 1, 1) := by decide +kernel
theorem dX8_isChain_51 : decode cX8_isChain 51 = .ok (.aaload, 1) := by decide +kernel
theorem dX8_isChain_52 : decode cX8_isChain 52 = .ok (.invokestatic 106, 3) := by decide +kernel
theorem dX8_isChain_55 : decode cX8_isChain 55 = .ok (.ifCond .ne 5, 3) := by decide +kernel
theorem dX8_isChain_58 : decode cX8_isChain 58 = .ok (.iconst 0, 1) := by decide +kernel
theorem dX8_isChain_59 : decode cX8_isChain 59 = .ok (.ireturn, 1) := by decide +kernel
theorem dX8_isChain_60 : decode cX8_isChain 60 = .ok (.iinc 2 1, 3) := by decide +kernel
theorem dX8_isChain_63 : decode cX8_isChain 63 = .ok (.goto (-46), 3) := by decide +kernel
theorem dX8_isChain_66 : decode cX8_isChain 66 = .ok (.iinc 1 1, 3) := by decide +kernel
theorem dX8_isChain_69 : decode cX8_isChain 69 = .ok (.goto (-62), 3) := by decide +kernel
theorem dX8_isChain_72 : decode cX8_isChain 72 = .ok (.iconst 1, 1) := by decide +kernel
theorem dX8_isChain_73 : decode cX8_isChain 73 = .ok (.ireturn, 1) := by decide +kernel
set_option maxRecDepth 20000 in
theorem ggX8_unites_X8_joins : GoodIn wsX8_unites wsX8_joins := goodIn_r _ [6] (by decide +kernel) (by decide +kernel)
set_option maxRecDepth 20000 in
theorem gX8_unites_X8_joins : GoodIn wsX8_unites (va_wsS RX8 87 yX8_joins wsX8_joins) := goodIn_app (goodIn_of _ (by decide +kernel)) ggX8_unites_X8_joins
set_option maxRecDepth 20000 in
theorem ggX8_unites_X8_lies : GoodIn wsX8_unites wsX8_lies := goodIn_r _ [9] (by decide +kernel) (by decide +kernel)
set_option maxRecDepth 20000 in
theorem gX8_unites_X8_lies : GoodIn wsX8_unites (va_wsS RX8 106 yX8_lies wsX8_lies) := goodIn_app (goodIn_of _ (by decide +kernel)) ggX8_unites_X8_lies
set_option maxRecDepth 20000 in
theorem ggX8_unites_X8_isPrime : GoodIn wsX8_unites wsX8_isPrime := goodIn_r _ [13, 2, 14, 15, 16, 17, 5, 18, 19, 20, 21, 22, 23, 0, 1, 3, 4, 6, 7, 8, 9, 10, 11, 12, 24, 25, 26, 27, 28, 29, 30, 31, 32, 33, 34, 35, 36, 37, 38, 39, 40, 41, 42] (by decide +kernel) (by decide +kernel)
set_option maxRecDepth 20000 in
theorem gX8_unites_X8_isPrime : GoodIn wsX8_unites (wsV RX8 129 RX8 yX8_isPrime wsX8_isPrime) := goodIn_app (goodIn_of _ (by decide +kernel)) ggX8_unites_X8_isPrime
theorem dX8_unites_0 : decode cX8_unites 0 = .ok (.aload_n 1, 1) := by decide +kernel
theorem dX8_unites_1 : decode cX8_unites 1 = .ok (.aload_n 1, 1) := by decide +kernel
theorem dX8_unites_2 : decode cX8_unites 2 = .ok (.iconst 2, 1) := by decide +kernel
theorem dX8_unites_3 : decode cX8_unites 3 = .ok (.aload 4, 2) := by decide +kernel
theorem dX8_unites_5 : decode cX8_unites 5 = .ok (.invokestatic 87, 3) := by decide +kernel
theorem dX8_unites_8 : decode cX8_unites 8 = .ok (.iconst 0, 1) := by decide +kernel
theorem dX8_unites_9 : decode cX8_unites 9 = .ok (.istore 5, 2) := by decide +kernel
theorem dX8_unites_11 : decode cX8_unites 11 = .ok (.iload 5, 2) := by decide +kernel
theorem dX8_unites_13 : decode cX8_unites 13 = .ok (.aload_n 0, 1) := by decide +kernel
theorem dX8_unites_14 : decode cX8_unites 14 = .ok (.getfield 59, 3) := by decide +kernel
theorem dX8_unites_17 : decode cX8_unites 17 = .ok (.if_icmp .ge 57, 3) := by decide +kernel
theorem dX8_unites_20 : decode cX8_unites 20 = .ok (.iload 5, 2) := by decide +kernel
theorem dX8_unites_22 : decode cX8_unites 22 = .ok (.iload_n 2, 1) := by decide +kernel
theorem dX8_unites_23 : decode cX8_unites 23 = .ok (.if_icmp .eq 45, 3) := by decide +kernel
theorem dX8_unites_26 : decode cX8_unites 26 = .ok (.aload_n 0, 1) := by decide +kernel
theorem dX8_unites_27 : decode cX8_unites 27 = .ok (.getfield 34, 3) := by decide +kernel
theorem dX8_unites_30 : decode cX8_unites 30 = .ok (.iload 5, 2) := by decide +kernel
theorem dX8_unites_32 : decode cX8_unites 32 = .ok (.aaload, 1) := by decide +kernel
theorem dX8_unites_33 : decode cX8_unites 33 = .ok (.aload_n 1, 1) := by decide +kernel
theorem dX8_unites_34 : decode cX8_unites 34 = .ok (.invokestatic 106, 3) := by decide +kernel
theorem dX8_unites_37 : decode cX8_unites 37 = .ok (.ifCond .eq 31, 3) := by decide +kernel
theorem dX8_unites_40 : decode cX8_unites 40 = .ok (.iload_n 3, 1) := by decide +kernel
theorem dX8_unites_41 : decode cX8_unites 41 = .ok (.ifCond .eq 12, 3) := by decide +kernel
theorem dX8_unites_44 : decode cX8_unites 44 = .ok (.aload_n 0, 1) := by decide +kernel
theorem dX8_unites_45 : decode cX8_unites 45 = .ok (.iload 5, 2) := by decide +kernel
theorem dX8_unites_47 : decode cX8_unites 47 = .ok (.invokevirtual 129, 3) := by decide +kernel
theorem dX8_unites_50 : decode cX8_unites 50 = .ok (.ifCond .eq 18, 3) := by decide +kernel
theorem dX8_unites_53 : decode cX8_unites 53 = .ok (.aload 4, 2) := by decide +kernel
theorem dX8_unites_55 : decode cX8_unites 55 = .ok (.aload_n 0, 1) := by decide +kernel
theorem dX8_unites_56 : decode cX8_unites 56 = .ok (.getfield 34, 3) := by decide +kernel
theorem dX8_unites_59 : decode cX8_unites 59 = .ok (.iload 5, 2) := by decide +kernel
theorem dX8_unites_61 : decode cX8_unites 61 = .ok (.aaload, 1) := by decide +kernel
theorem dX8_unites_62 : decode cX8_unites 62 = .ok (.iconst 0, 1) := by decide +kernel
theorem dX8_unites_63 : decode cX8_unites 63 = .ok (.aload 4, 2) := by decide +kernel
theorem dX8_unites_65 : decode cX8_unites 65 = .ok (.invokestatic 87, 3) := by decide +kernel
theorem dX8_unites_68 : decode cX8_unites 68 = .ok (.iinc 5 1, 3) := by decide +kernel
theorem dX8_unites_71 : decode cX8_unites 71 = .ok (.goto (-60), 3) := by decide +kernel
theorem dX8_unites_74 : decode cX8_unites 74 = .ok (.return_, 1) := by decide +kernel
set_option maxRecDepth 20000 in
theorem ggX8_isPrime_X8_unites : GoodIn wsX8_isPrime wsX8_unites := goodIn_r _ [13, 14, 1, 15, 16, 6, 17, 18, 19, 20, 21, 22, 23, 0, 2, 3, 4, 5, 7, 8, 9, 10, 11, 12, 24, 25, 26, 27, 28, 29, 30, 31, 32, 33, 34, 35, 36, 37, 38, 39, 40, 41, 42] (by decide +kernel) (by decide +kernel)
set_option maxRecDepth 20000 in
theorem gX8_isPrime_X8_unites : GoodIn wsX8_isPrime (wsV RX8 132 RX8 yX8_unites wsX8_unites) := goodIn_app (goodIn_of _ (by decide +kernel)) ggX8_isPrime_X8_unites
set_option maxRecDepth 20000 in
theorem ggX8_isPrime_X8_areSame : GoodIn wsX8_isPrime wsX8_areSame := goodIn_r _ [9, 10, 11, 6, 12] (by decide +kernel) (by decide +kernel)
set_option maxRecDepth 20000 in
theorem gX8_isPrime_X8_areSame : GoodIn wsX8_isPrime (va_wsS RX8 99 yX8_areSame wsX8_areSame) := goodIn_app (goodIn_of _ (by decide +kernel)) ggX8_isPrime_X8_areSame
theorem dX8_isPrime_0 : decode cX8_isPrime 0 = .ok (.aload_n 0, 1) := by decide +kernel
theorem dX8_isPrime_1 : decode cX8_isPrime 1 = .ok (.aload_n 0, 1) := by decide +kernel
theorem dX8_isPrime_2 : decode cX8_isPrime 2 = .ok (.getfield 34, 3) := by decide +kernel
theorem dX8_isPrime_5 : decode cX8_isPrime 5 = .ok (.iload_n 1, 1) := by decide +kernel
theorem dX8_isPrime_6 : decode cX8_isPrime 6 = .ok (.aaload, 1) := by decide +kernel
theorem dX8_isPrime_7 : decode cX8_isPrime 7 = .ok (.iload_n 1, 1) := by decide +kernel
theorem dX8_isPrime_8 : decode cX8_isPrime 8 = .ok (.iconst 0, 1) := by decide +kernel
theorem dX8_isPrime_9 : decode cX8_isPrime 9 = .ok (.aload_n 0, 1) := by decide +kernel
theorem dX8_isPrime_10 : decode cX8_isPrime 10 = .ok (.getfield 40, 3) := by decide +kernel
theorem dX8_isPrime_13 : decode cX8_isPrime 13 = .ok (.invokevirtual 132, 3) := by decide +kernel
theorem dX8_isPrime_16 : decode cX8_isPrime 16 = .ok (.aload_n 0, 1) := by decide +kernel
theorem dX8_isPrime_17 : decode cX8_isPrime 17 = .ok (.getfield 40, 3) := by decide +kernel
theorem dX8_isPrime_20 : decode cX8_isPrime 20 = .ok (.aload_n 0, 1) := by decide +kernel
theorem dX8_isPrime_21 : decode cX8_isPrime 21 = .ok (.getfield 34, 3) := by decide +kernel
theorem dX8_isPrime_24 : decode cX8_isPrime 24 = .ok (.iload_n 1, 1) := by decide +kernel
theorem dX8_isPrime_25 : decode cX8_isPrime 25 = .ok (.aaload, 1) := by decide +kernel
theorem dX8_isPrime_26 : decode cX8_isPrime 26 = .ok (.invokestatic 99, 3) := by decide +kernel
theorem dX8_isPrime_29 : decode cX8_isPrime 29 = .ok (.ifCond .ne 7, 3) := by decide +kernel
theorem dX8_isPrime_32 : decode cX8_isPrime 32 = .ok (.iconst 1, 1) := by decide +kernel
theorem dX8_isPrime_33 : decode cX8_isPrime 33 = .ok (.goto 4, 3) := by decide +kernel
theorem dX8_isPrime_36 : decode cX8_isPrime 36 = .ok (.iconst 0, 1) := by decide +kernel
theorem dX8_isPrime_37 : decode cX8_isPrime 37 = .ok (.ireturn, 1) := by decide +kernel
set_option maxRecDepth 20000 in
theorem ggX8_primesIn_X8_lies : GoodIn wsX8_primesIn wsX8_lies := goodIn_r _ [6] (by decide +kernel) (by decide +kernel)
set_option maxRecDepth 20000 in
theorem gX8_primesIn_X8_lies : GoodIn wsX8_primesIn (va_wsS RX8 106 yX8_lies wsX8_lies) := goodIn_app (goodIn_of _ (by decide +kernel)) ggX8_primesIn_X8_lies
set_option maxRecDepth 20000 in
theorem ggX8_primesIn_X8_isPrime : GoodIn wsX8_primesIn wsX8_isPrime := goodIn_r _ [10, 2, 11, 12, 13, 14, 5, 15, 16, 17, 18, 19, 20, 21, 1, 22, 23, 24, 3, 4, 6, 7, 8, 9, 25, 26, 27, 28, 29, 30, 31, 32, 33, 34, 35, 36, 37, 38, 39, 40, 41, 42, 43] (by decide +kernel) (by decide +kernel)
set_option maxRecDepth 20000 in
theorem gX8_primesIn_X8_isPrime : GoodIn wsX8_primesIn (wsV RX8 129 RX8 yX8_isPrime wsX8_isPrime) := goodIn_app (goodIn_of _ (by decide +kernel)) ggX8_primesIn_X8_isPrime
theorem dX8_primesIn_0 : decode cX8_primesIn 0 = .ok (.iconst 0, 1) := by decide +kernel
theorem dX8_primesIn_1 : decode cX8_primesIn 1 = .ok (.istore_n 2, 1) := by decide +kernel
theorem dX8_primesIn_2 : decode cX8_primesIn 2 = .ok (.iconst 0, 1) := by decide +kernel
theorem dX8_primesIn_3 : decode cX8_primesIn 3 = .ok (.istore_n 3, 1) := by decide +kernel
theorem dX8_primesIn_4 : decode cX8_primesIn 4 = .ok (.iload_n 3, 1) := by decide +kernel
theorem dX8_primesIn_5 : decode cX8_primesIn 5 = .ok (.aload_n 0, 1) := by decide +kernel
theorem dX8_primesIn_6 : decode cX8_primesIn 6 = .ok (.getfield 59, 3) := by decide +kernel
theorem dX8_primesIn_9 : decode cX8_primesIn 9 = .ok (.if_icmp .ge 38, 3) := by decide +kernel
theorem dX8_primesIn_12 : decode cX8_primesIn 12 = .ok (.iload_n 2, 1) := by decide +kernel
theorem dX8_primesIn_13 : decode cX8_primesIn 13 = .ok (.aload_n 0, 1) := by decide +kernel
theorem dX8_primesIn_14 : decode cX8_primesIn 14 = .ok (.getfield 34, 3) := by decide +kernel
theorem dX8_primesIn_17 : decode cX8_primesIn 17 = .ok (.iload_n 3, 1) := by decide +kernel
theorem dX8_primesIn_18 : decode cX8_primesIn 18 = .ok (.aaload, 1) := by decide +kernel
theorem dX8_primesIn_19 : decode cX8_primesIn 19 = .ok (.aload_n 1, 1) := by decide +kernel
theorem dX8_primesIn_20 : decode cX8_primesIn 20 = .ok (.invokestatic 106, 3) := by decide +kernel
theorem dX8_primesIn_23 : decode cX8_primesIn 23 = .ok (.ifCond .eq 15, 3) := by decide +kernel
theorem dX8_primesIn_26 : decode cX8_primesIn 26 = .ok (.aload_n 0, 1) := by decide +kernel
theorem dX8_primesIn_27 : decode cX8_primesIn 27 = .ok (.iload_n 3, 1) := by decide +kernel
theorem dX8_primesIn_28 : decode cX8_primesIn 28 = .ok (.invokevirtual 129, 3) := by decide +kernel
theorem dX8_primesIn_31 : decode cX8_primesIn 31 = .ok (.ifCond .eq 7, 3) := by decide +kernel
theorem dX8_primesIn_34 : decode cX8_primesIn 34 = .ok (.iconst 1, 1) := by decide +kernel
theorem dX8_primesIn_35 : decode cX8_primesIn 35 = .ok (.goto 4, 3) := by decide +kernel
theorem dX8_primesIn_38 : decode cX8_primesIn 38 = .ok (.iconst 0, 1) := by decide +kernel
theorem dX8_primesIn_39 : decode cX8_primesIn 39 = .ok (.iadd, 1) := by decide +kernel
theorem dX8_primesIn_40 : decode cX8_primesIn 40 = .ok (.istore_n 2, 1) := by decide +kernel
theorem dX8_primesIn_41 : decode cX8_primesIn 41 = .ok (.iinc 3 1, 3) := by decide +kernel
theorem dX8_primesIn_44 : decode cX8_primesIn 44 = .ok (.goto (-40), 3) := by decide +kernel
theorem dX8_primesIn_47 : decode cX8_primesIn 47 = .ok (.iload_n 2, 1) := by decide +kernel
theorem dX8_primesIn_48 : decode cX8_primesIn 48 = .ok (.ireturn, 1) := by decide +kernel
set_option maxRecDepth 20000 in
theorem ggX8_primes_X8_isPrime : GoodIn wsX8_primes wsX8_isPrime := goodIn_r _ [7, 8, 9, 10, 11, 12, 6, 13, 14, 15, 16, 17, 18, 19, 2, 20, 21, 22, 23, 24, 25, 3, 4, 5, 26, 27, 28, 29, 30, 31, 32, 33, 34, 35, 36, 37, 38, 39, 40, 41, 42, 43, 44] (by decide +kernel) (by decide +kernel)
set_option maxRecDepth 20000 in
theorem gX8_primes_X8_isPrime : GoodIn wsX8_primes (wsV RX8 129 RX8 yX8_isPrime wsX8_isPrime) := goodIn_app (goodIn_of _ (by decide +kernel)) ggX8_primes_X8_isPrime
theorem dX8_primes_0 : decode cX8_primes 0 = .ok (.aload_n 0, 1) := by decide +kernel
theorem dX8_primes_1 : decode cX8_primes 1 = .ok (.iconst 0, 1) := by decide +kernel
theorem dX8_primes_2 : decode cX8_primes 2 = .ok (.putfield 3, 3) := by decide +kernel
theorem dX8_primes_5 : decode cX8_primes 5 = .ok (.iconst 0, 1) := by decide +kernel
theorem dX8_primes_6 : decode cX8_primes 6 = .ok (.istore_n 1, 1) := by decide +kernel
theorem dX8_primes_7 : decode cX8_primes 7 = .ok (.iconst 0, 1) := by decide +kernel
theorem dX8_primes_8 : decode cX8_primes 8 = .ok (.istore_n 2, 1) := by decide +kernel
theorem dX8_primes_9 : decode cX8_primes 9 = .ok (.iload_n 2, 1) := by decide +kernel
theorem dX8_primes_10 : decode cX8_primes 10 = .ok (.aload_n 0, 1) := by decide +kernel
theorem dX8_primes_11 : decode cX8_primes 11 = .ok (.getfield 59, 3) := by decide +kernel
theorem dX8_primes_14 : decode cX8_primes 14 = .ok (.if_icmp .ge 25, 3) := by decide +kernel
theorem dX8_primes_17 : decode cX8_primes 17 = .ok (.iload_n 1, 1) := by decide +kernel
theorem dX8_primes_18 : decode cX8_primes 18 = .ok (.aload_n 0, 1) := by decide +kernel
theorem dX8_primes_19 : decode cX8_primes 19 = .ok (.iload_n 2, 1) := by decide +kernel
theorem dX8_primes_20 : decode cX8_primes 20 = .ok (.invokevirtual 129, 3) := by decide +kernel
theorem dX8_primes_23 : decode cX8_primes 23 = .ok (.ifCond .eq 7, 3) := by decide +kernel
theorem dX8_primes_26 : decode cX8_primes 26 = .ok (.iconst 1, 1) := by decide +kernel
theorem dX8_primes_27 : decode cX8_primes 27 = .ok (.goto 4, 3) := by decide +kernel
theorem dX8_primes_30 : decode cX8_primes 30 = .ok (.iconst 0, 1) := by decide +kernel
theorem dX8_primes_31 : decode cX8_primes 31 = .ok (.iadd, 1) := by decide +kernel
theorem dX8_primes_32 : decode cX8_primes 32 = .ok (.istore_n 1, 1) := by decide +kernel
theorem dX8_primes_33 : decode cX8_primes 33 = .ok (.iinc 2 1, 3) := by decide +kernel
theorem dX8_primes_36 : decode cX8_primes 36 = .ok (.goto (-27), 3) := by decide +kernel
theorem dX8_primes_39 : decode cX8_primes 39 = .ok (.iload_n 1, 1) := by decide +kernel
theorem dX8_primes_40 : decode cX8_primes 40 = .ok (.ireturn, 1) := by decide +kernel
set_option maxRecDepth 20000 in
theorem ggX8_primesWithin_X8_isSet : GoodIn wsX8_primesWithin wsX8_isSet := goodIn_r _ [5, 6, 7, 4, 8] (by decide +kernel) (by decide +kernel)
set_option maxRecDepth 20000 in
theorem gX8_primesWithin_X8_isSet : GoodIn wsX8_primesWithin (va_wsS RX8 65 yX8_isSet wsX8_isSet) := goodIn_app (goodIn_of _ (by decide +kernel)) ggX8_primesWithin_X8_isSet
set_option maxRecDepth 20000 in
theorem ggX8_primesWithin_X8_passes : GoodIn wsX8_primesWithin wsX8_passes := goodIn_r _ [12, 13, 41, 42, 43, 44, 45, 46, 47, 48, 49, 50, 51, 52, 53, 54, 55, 56, 57, 58, 59] (by decide +kernel) (by decide +kernel)
set_option maxRecDepth 20000 in
theorem gX8_primesWithin_X8_passes : GoodIn wsX8_primesWithin (wsV RX8 72 RX8 yX8_passes wsX8_passes) := goodIn_app (goodIn_of _ (by decide +kernel)) ggX8_primesWithin_X8_passes
set_option maxRecDepth 20000 in
theorem ggX8_primesWithin_X8_primesIn : GoodIn wsX8_primesWithin wsX8_primesIn := goodIn_r _ [17, 18, 19, 20, 21, 4, 22, 23, 24, 25, 26, 27, 28, 29, 30, 31, 32, 33, 34, 35, 36, 37, 38, 39, 40, 41, 42, 43, 44, 45, 46, 47, 48, 49, 50, 51, 52, 53, 54, 55, 56, 57, 58, 59] (by decide +kernel) (by decide +kernel)
set_option maxRecDepth 20000 in
theorem gX8_primesWithin_X8_primesIn : GoodIn wsX8_primesWithin (wsV RX8 136 RX8 yX8_primesIn wsX8_primesIn) := goodIn_app (goodIn_of _ (by decide +kernel)) ggX8_primesWithin_X8_primesIn
theorem dX8_primesWithin_0 : decode cX8_primesWithin 0 = .ok (.aload_n 0, 1) := by decide +kernel
theorem dX8_primesWithin_1 : decode cX8_primesWithin 1 = .ok (.iload_n 1, 1) := by decide +kernel
theorem dX8_primesWithin_2 : decode cX8_primesWithin 2 = .ok (.invokestatic 65, 3) := by decide +kernel
theorem dX8_primesWithin_5 : decode cX8_primesWithin 5 = .ok (.iconst 1, 1) := by decide +kernel
theorem dX8_primesWithin_6 : decode cX8_primesWithin 6 = .ok (.invokevirtual 72, 3) := by decide +kernel
theorem dX8_primesWithin_9 : decode cX8_primesWithin 9 = .ok (.ifCond .eq 16, 3) := by decide +kernel
theorem dX8_primesWithin_12 : decode cX8_primesWithin 12 = .ok (.aload_n 0, 1) := by decide +kernel
theorem dX8_primesWithin_13 : decode cX8_primesWithin 13 = .ok (.aload_n 0, 1) := by decide +kernel
theorem dX8_primesWithin_14 : decode cX8_primesWithin 14 = .ok (.getfield 27, 3) := by decide +kernel
theorem dX8_primesWithin_17 : decode cX8_primesWithin 17 = .ok (.iload_n 1, 1) := by decide +kernel
theorem dX8_primesWithin_18 : decode cX8_primesWithin 18 = .ok (.aaload, 1) := by decide +kernel
theorem dX8_primesWithin_19 : decode cX8_primesWithin 19 = .ok (.invokevirtual 136, 3) := by decide +kernel
theorem dX8_primesWithin_22 : decode cX8_primesWithin 22 = .ok (.goto 4, 3) := by decide +kernel
theorem dX8_primesWithin_25 : decode cX8_primesWithin 25 = .ok (.iconst 0, 1) := by decide +kernel
theorem dX8_primesWithin_26 : decode cX8_primesWithin 26 = .ok (.ireturn, 1) := by decide +kernel
set_option maxRecDepth 20000 in
theorem ggX8_type_X8_passes : GoodIn wsX8_type wsX8_passes := goodIn_r _ [8, 9, 10, 11, 12, 13, 14, 15, 16, 17, 18, 19, 20, 21, 22, 23, 24, 25, 26, 27, 28] (by decide +kernel) (by decide +kernel)
set_option maxRecDepth 20000 in
theorem gX8_type_X8_passes : GoodIn wsX8_type (wsV RX8 72 RX8 yX8_passes wsX8_passes) := goodIn_app (goodIn_of _ (by decide +kernel)) ggX8_type_X8_passes
theorem dX8_type_0 : decode cX8_type 0 = .ok (.iconst 0, 1) := by decide +kernel
theorem dX8_type_1 : decode cX8_type 1 = .ok (.istore_n 3, 1) := by decide +kernel
theorem dX8_type_2 : decode cX8_type 2 = .ok (.iconst 0, 1) := by decide +kernel
theorem dX8_type_3 : decode cX8_type 3 = .ok (.istore 4, 2) := by decide +kernel
theorem dX8_type_5 : decode cX8_type 5 = .ok (.iload 4, 2) := by decide +kernel
theorem dX8_type_7 : decode cX8_type 7 = .ok (.bipush 8, 2) := by decide +kernel
theorem dX8_type_9 : decode cX8_type 9 = .ok (.if_icmp .ge 33, 3) := by decide +kernel
theorem dX8_type_12 : decode cX8_type 12 = .ok (.iload_n 3, 1) := by decide +kernel
theorem dX8_type_13 : decode cX8_type 13 = .ok (.lload_n 1, 1) := by decide +kernel
theorem dX8_type_14 : decode cX8_type 14 = .ok (.bipush 8, 2) := by decide +kernel
theorem dX8_type_16 : decode cX8_type 16 = .ok (.iload 4, 2) := by decide +kernel
theorem dX8_type_18 : decode cX8_type 18 = .ok (.imul, 1) := by decide +kernel
theorem dX8_type_19 : decode cX8_type 19 = .ok (.lshr, 1) := by decide +kernel
theorem dX8_type_20 : decode cX8_type 20 = .ok (.ldc2_w 139, 3) := by decide +kernel
theorem dX8_type_23 : decode cX8_type 23 = .ok (.land, 1) := by decide +kernel
theorem dX8_type_24 : decode cX8_type 24 = .ok (.lconst 0, 1) := by decide +kernel
theorem dX8_type_25 : decode cX8_type 25 = .ok (.lcmp, 1) := by decide +kernel
theorem dX8_type_26 : decode cX8_type 26 = .ok (.ifCond .ne 7, 3) := by decide +kernel
theorem dX8_type_29 : decode cX8_type 29 = .ok (.iconst 0, 1) := by decide +kernel
theorem dX8_type_30 : decode cX8_type 30 = .ok (.goto 4, 3) := by decide +kernel
theorem dX8_type_33 : decode cX8_type 33 = .ok (.iconst 1, 1) := by decide +kernel
theorem dX8_type_34 : decode cX8_type 34 = .ok (.iadd, 1) := by decide +kernel
theorem dX8_type_35 : decode cX8_type 35 = .ok (.istore_n 3, 1) := by decide +kernel
theorem dX8_type_36 : decode cX8_type 36 = .ok (.iinc 4 1, 3) := by decide +kernel
theorem dX8_type_39 : decode cX8_type 39 = .ok (.goto (-34), 3) := by decide +kernel
theorem dX8_type_42 : decode cX8_type 42 = .ok (.aload_n 0, 1) := by decide +kernel
theorem dX8_type_43 : decode cX8_type 43 = .ok (.aload_n 0, 1) := by decide +kernel
theorem dX8_type_44 : decode cX8_type 44 = .ok (.getfield 141, 3) := by decide +kernel
theorem dX8_type_47 : decode cX8_type 47 = .ok (.iload_n 3, 1) := by decide +kernel
theorem dX8_type_48 : decode cX8_type 48 = .ok (.iadd, 1) := by decide +kernel
theorem dX8_type_49 : decode cX8_type 49 = .ok (.sipush 200, 3) := by decide +kernel
theorem dX8_type_52 : decode cX8_type 52 = .ok (.if_icmp .gt 7, 3) := by decide +kernel
theorem dX8_type_55 : decode cX8_type 55 = .ok (.iconst 1, 1) := by decide +kernel
theorem dX8_type_56 : decode cX8_type 56 = .ok (.goto 4, 3) := by decide +kernel
theorem dX8_type_59 : decode cX8_type 59 = .ok (.iconst 0, 1) := by decide +kernel
theorem dX8_type_60 : decode cX8_type 60 = .ok (.iconst 1, 1) := by decide +kernel
theorem dX8_type_61 : decode cX8_type 61 = .ok (.invokevirtual 72, 3) := by decide +kernel
theorem dX8_type_64 : decode cX8_type 64 = .ok (.ifCond .ne 5, 3) := by decide +kernel
theorem dX8_type_67 : decode cX8_type 67 = .ok (.iconst 0, 1) := by decide +kernel
theorem dX8_type_68 : decode cX8_type 68 = .ok (.ireturn, 1) := by decide +kernel
theorem dX8_type_69 : decode cX8_type 69 = .ok (.bipush 7, 2) := by decide +kernel
theorem dX8_type_71 : decode cX8_type 71 = .ok (.istore 4, 2) := by decide +kernel
theorem dX8_type_73 : decode cX8_type 73 = .ok (.iload 4, 2) := by decide +kernel
theorem dX8_type_75 : decode cX8_type 75 = .ok (.ifCond .lt 49, 3) := by decide +kernel
theorem dX8_type_78 : decode cX8_type 78 = .ok (.lload_n 1, 1) := by decide +kernel
theorem dX8_type_79 : decode cX8_type 79 = .ok (.bipush 8, 2) := by decide +kernel
theorem dX8_type_81 : decode cX8_type 81 = .ok (.iload 4, 2) := by decide +kernel
theorem dX8_type_83 : decode cX8_type 83 = .ok (.imul, 1) := by decide +kernel
theorem dX8_type_84 : decode cX8_type 84 = .ok (.lshr, 1) := by decide +kernel
theorem dX8_type_85 : decode cX8_type 85 = .ok (.ldc2_w 139, 3) := by decide +kernel
theorem dX8_type_88 : decode cX8_type 88 = .ok (.land, 1) := by decide +kernel
theorem dX8_type_89 : decode cX8_type 89 = .ok (.l2i, 1) := by decide +kernel
theorem dX8_type_90 : decode cX8_type 90 = .ok (.istore 5, 2) := by decide +kernel
theorem dX8_type_92 : decode cX8_type 92 = .ok (.iload 5, 2) := by decide +kernel
theorem dX8_type_94 : decode cX8_type 94 = .ok (.ifCond .eq 24, 3) := by decide +kernel
theorem dX8_type_97 : decode cX8_type 97 = .ok (.aload_n 0, 1) := by decide +kernel
theorem dX8_type_98 : decode cX8_type 98 = .ok (.getfield 43, 3) := by decide +kernel
theorem dX8_type_101 : decode cX8_type 101 = .ok (.aload_n 0, 1) := by decide +kernel
theorem dX8_type_102 : decode cX8_type 102 = .ok (.getfield 141, 3) := by decide +kernel
theorem dX8_type_105 : decode cX8_type 105 = .ok (.iload 5, 2) := by decide +kernel
theorem dX8_type_107 : decode cX8_type 107 = .ok (.iastore, 1) := by decide +kernel
theorem dX8_type_108 : decode cX8_type 108 = .ok (.aload_n 0, 1) := by decide +kernel
theorem dX8_type_109 : decode cX8_type 109 = .ok (.dup, 1) := by decide +kernel
theorem dX8_type_110 : decode cX8_type 110 = .ok (.getfield 141, 3) := by decide +kernel
theorem dX8_type_113 : decode cX8_type 113 = .ok (.iconst 1, 1) := by decide +kernel
theorem dX8_type_114 : decode cX8_type 114 = .ok (.iadd, 1) := by decide +kernel
theorem dX8_type_115 : decode cX8_type 115 = .ok (.putfield 141, 3) := by decide +kernel
theorem dX8_type_118 : decode cX8_type 118 = .ok (.iinc 4 (-1), 3) := by decide +kernel
theorem dX8_type_121 : decode cX8_type 121 = .ok (.goto (-48), 3) := by decide +kernel
theorem dX8_type_124 : decode cX8_type 124 = .ok (.aload_n 0, 1) := by decide +kernel
theorem dX8_type_125 : decode cX8_type 125 = .ok (.getfield 141, 3) := by decide +kernel
theorem dX8_type_128 : decode cX8_type 128 = .ok (.ireturn, 1) := by decide +kernel
theorem dX8_clearText_0 : decode cX8_clearText 0 = .ok (.aload_n 0, 1) := by decide +kernel
theorem dX8_clearText_1 : decode cX8_clearText 1 = .ok (.iconst 0, 1) := by decide +kernel
theorem dX8_clearText_2 : decode cX8_clearText 2 = .ok (.putfield 3, 3) := by decide +kernel
theorem dX8_clearText_5 : decode cX8_clearText 5 = .ok (.aload_n 0, 1) := by decide +kernel
theorem dX8_clearText_6 : decode cX8_clearText 6 = .ok (.getfield 141, 3) := by decide +kernel
theorem dX8_clearText_9 : decode cX8_clearText 9 = .ok (.istore_n 1, 1) := by decide +kernel
theorem dX8_clearText_10 : decode cX8_clearText 10 = .ok (.aload_n 0, 1) := by decide +kernel
theorem dX8_clearText_11 : decode cX8_clearText 11 = .ok (.iconst 0, 1) := by decide +kernel
theorem dX8_clearText_12 : decode cX8_clearText 12 = .ok (.putfield 141, 3) := by decide +kernel
theorem dX8_clearText_15 : decode cX8_clearText 15 = .ok (.iload_n 1, 1) := by decide +kernel
theorem dX8_clearText_16 : decode cX8_clearText 16 = .ok (.ireturn, 1) := by decide +kernel
theorem dX8_textLength_0 : decode cX8_textLength 0 = .ok (.aload_n 0, 1) := by decide +kernel
theorem dX8_textLength_1 : decode cX8_textLength 1 = .ok (.iconst 0, 1) := by decide +kernel
theorem dX8_textLength_2 : decode cX8_textLength 2 = .ok (.putfield 3, 3) := by decide +kernel
theorem dX8_textLength_5 : decode cX8_textLength 5 = .ok (.aload_n 0, 1) := by decide +kernel
theorem dX8_textLength_6 : decode cX8_textLength 6 = .ok (.getfield 141, 3) := by decide +kernel
theorem dX8_textLength_9 : decode cX8_textLength 9 = .ok (.ireturn, 1) := by decide +kernel
theorem dX8_exampleOf_0 : decode cX8_exampleOf 0 = .ok (.iload_n 0, 1) := by decide +kernel
theorem dX8_exampleOf_1 : decode cX8_exampleOf 1 = .ok (.ifCond .ne 6, 3) := by decide +kernel
theorem dX8_exampleOf_4 : decode cX8_exampleOf 4 = .ok (.ldc 144, 2) := by decide +kernel
theorem dX8_exampleOf_6 : decode cX8_exampleOf 6 = .ok (.areturn, 1) := by decide +kernel
theorem dX8_exampleOf_7 : decode cX8_exampleOf 7 = .ok (.iload_n 0, 1) := by decide +kernel
theorem dX8_exampleOf_8 : decode cX8_exampleOf 8 = .ok (.iconst 1, 1) := by decide +kernel
theorem dX8_exampleOf_9 : decode cX8_exampleOf 9 = .ok (.if_icmp .ne 8, 3) := by decide +kernel
theorem dX8_exampleOf_12 : decode cX8_exampleOf 12 = .ok (.ldc 146, 2) := by decide +kernel
theorem dX8_exampleOf_14 : decode cX8_exampleOf 14 = .ok (.goto 5, 3) := by decide +kernel
theorem dX8_exampleOf_17 : decode cX8_exampleOf 17 = .ok (.ldc 148, 2) := by decide +kernel
theorem dX8_exampleOf_19 : decode cX8_exampleOf 19 = .ok (.areturn, 1) := by decide +kernel
set_option maxRecDepth 20000 in
theorem ggX8_example_X8_in : GoodIn wsX8_example wsX8_in := goodIn_r _ [6] (by decide +kernel) (by decide +kernel)
set_option maxRecDepth 20000 in
theorem gX8_example_X8_in : GoodIn wsX8_example (va_wsS RX8 7 yX8_in wsX8_in) := goodIn_app (goodIn_of _ (by decide +kernel)) ggX8_example_X8_in
set_option maxRecDepth 20000 in
theorem ggX8_example_X8_passes : GoodIn wsX8_example wsX8_passes := goodIn_r _ [10, 11, 64, 65, 66, 67, 68, 69, 70, 71, 72, 73, 74, 75, 76, 77, 78, 79, 80, 81, 82] (by decide +kernel) (by decide +kernel)
set_option maxRecDepth 20000 in
theorem gX8_example_X8_passes : GoodIn wsX8_example (wsV RX8 72 RX8 yX8_passes wsX8_passes) := goodIn_app (goodIn_of _ (by decide +kernel)) ggX8_example_X8_passes
set_option maxRecDepth 20000 in
theorem ggX8_example_X8_exampleOf : GoodIn wsX8_example wsX8_exampleOf := goodIn_r _ [14] (by decide +kernel) (by decide +kernel)
set_option maxRecDepth 20000 in
theorem gX8_example_X8_exampleOf : GoodIn wsX8_example (va_wsS RX8 150 yX8_exampleOf wsX8_exampleOf) := goodIn_app (goodIn_of _ (by decide +kernel)) ggX8_example_X8_exampleOf
set_option maxRecDepth 20000 in
theorem ggX8_example_J0_length_8abf5 : GoodIn wsX8_example wsJ0_length_8abf5 := goodIn_r _ [19, 20, 21, 22, 23, 18, 24, 25, 26] (by decide +kernel) (by decide +kernel)
set_option maxRecDepth 20000 in
theorem gX8_example_J0_length_8abf5 : GoodIn wsX8_example (wsV RX8 154 RJ0 yJ0_length_8abf5 wsJ0_length_8abf5) := goodIn_app (goodIn_of _ (by decide +kernel)) ggX8_example_J0_length_8abf5
set_option maxRecDepth 20000 in
theorem ggX8_example_J0_charAt_5068e : GoodIn wsX8_example wsJ0_charAt_5068e := goodIn_r _ [30, 20, 31, 32, 33, 18, 34, 25, 26, 35, 36, 37, 38, 39, 40, 41, 42, 43, 44, 45, 46, 47, 48, 49, 50, 51, 52, 53, 54, 55, 56, 57, 58, 59, 60, 61, 62, 63] (by decide +kernel) (by decide +kernel)
set_option maxRecDepth 20000 in
theorem gX8_example_J0_charAt_5068e : GoodIn wsX8_example (wsV RX8 160 RJ0 yJ0_charAt_5068e wsJ0_charAt_5068e) := goodIn_app (goodIn_of _ (by decide +kernel)) ggX8_example_J0_charAt_5068e
theorem dX8_example_0 : decode cX8_example 0 = .ok (.aload_n 0, 1) := by decide +kernel
theorem dX8_example_1 : decode cX8_example 1 = .ok (.iload_n 1, 1) := by decide +kernel
theorem dX8_example_2 : decode cX8_example 2 = .ok (.iconst 0, 1) := by decide +kernel
theorem dX8_example_3 : decode cX8_example 3 = .ok (.iconst 2, 1) := by decide +kernel
theorem dX8_example_4 : decode cX8_example 4 = .ok (.invokestatic 7, 3) := by decide +kernel
theorem dX8_example_7 : decode cX8_example 7 = .ok (.iconst 1, 1) := by decide +kernel
theorem dX8_example_8 : decode cX8_example 8 = .ok (.invokevirtual 72, 3) := by decide +kernel
theorem dX8_example_11 : decode cX8_example 11 = .ok (.ifCond .ne 5, 3) := by decide +kernel
theorem dX8_example_14 : decode cX8_example 14 = .ok (.iconst 0, 1) := by decide +kernel
theorem dX8_example_15 : decode cX8_example 15 = .ok (.ireturn, 1) := by decide +kernel
theorem dX8_example_16 : decode cX8_example 16 = .ok (.iload_n 1, 1) := by decide +kernel
theorem dX8_example_17 : decode cX8_example 17 = .ok (.invokestatic 150, 3) := by decide +kernel
theorem dX8_example_20 : decode cX8_example 20 = .ok (.astore_n 2, 1) := by decide +kernel
theorem dX8_example_21 : decode cX8_example 21 = .ok (.iconst 0, 1) := by decide +kernel
theorem dX8_example_22 : decode cX8_example 22 = .ok (.istore_n 3, 1) := by decide +kernel
theorem dX8_example_23 : decode cX8_example 23 = .ok (.iload_n 3, 1) := by decide +kernel
theorem dX8_example_24 : decode cX8_example 24 = .ok (.aload_n 2, 1) := by decide +kernel
theorem dX8_example_25 : decode cX8_example 25 = .ok (.invokevirtual 154, 3) := by decide +kernel
theorem dX8_example_28 : decode cX8_example 28 = .ok (.if_icmp .ge 20, 3) := by decide +kernel
theorem dX8_example_31 : decode cX8_example 31 = .ok (.aload_n 0, 1) := by decide +kernel
theorem dX8_example_32 : decode cX8_example 32 = .ok (.getfield 43, 3) := by decide +kernel
theorem dX8_example_35 : decode cX8_example 35 = .ok (.iload_n 3, 1) := by decide +kernel
theorem dX8_example_36 : decode cX8_example 36 = .ok (.aload_n 2, 1) := by decide +kernel
theorem dX8_example_37 : decode cX8_example 37 = .ok (.iload_n 3, 1) := by decide +kernel
theorem dX8_example_38 : decode cX8_example 38 = .ok (.invokevirtual 160, 3) := by decide +kernel
theorem dX8_example_41 : decode cX8_example 41 = .ok (.iastore, 1) := by decide +kernel
theorem dX8_example_42 : decode cX8_example 42 = .ok (.iinc 3 1, 3) := by decide +kernel
theorem dX8_example_45 : decode cX8_example 45 = .ok (.goto (-22), 3) := by decide +kernel
theorem dX8_example_48 : decode cX8_example 48 = .ok (.aload_n 0, 1) := by decide +kernel
theorem dX8_example_49 : decode cX8_example 49 = .ok (.aload_n 2, 1) := by decide +kernel
theorem dX8_example_50 : decode cX8_example 50 = .ok (.invokevirtual 154, 3) := by decide +kernel
theorem dX8_example_53 : decode cX8_example 53 = .ok (.putfield 141, 3) := by decide +kernel
theorem dX8_example_56 : decode cX8_example 56 = .ok (.aload_n 0, 1) := by decide +kernel
theorem dX8_example_57 : decode cX8_example 57 = .ok (.getfield 141, 3) := by decide +kernel
theorem dX8_example_60 : decode cX8_example 60 = .ok (.ireturn, 1) := by decide +kernel
theorem dX8_fails_0 : decode cX8_fails 0 = .ok (.aload_n 0, 1) := by decide +kernel
theorem dX8_fails_1 : decode cX8_fails 1 = .ok (.getfield 164, 3) := by decide +kernel
theorem dX8_fails_4 : decode cX8_fails 4 = .ok (.ifCond .ne 13, 3) := by decide +kernel
theorem dX8_fails_7 : decode cX8_fails 7 = .ok (.aload_n 0, 1) := by decide +kernel
theorem dX8_fails_8 : decode cX8_fails 8 = .ok (.iload_n 1, 1) := by decide +kernel
theorem dX8_fails_9 : decode cX8_fails 9 = .ok (.putfield 164, 3) := by decide +kernel
theorem dX8_fails_12 : decode cX8_fails 12 = .ok (.aload_n 0, 1) := by decide +kernel
theorem dX8_fails_13 : decode cX8_fails 13 = .ok (.iload_n 2, 1) := by decide +kernel
theorem dX8_fails_14 : decode cX8_fails 14 = .ok (.putfield 167, 3) := by decide +kernel
theorem dX8_fails_17 : decode cX8_fails 17 = .ok (.return_, 1) := by decide +kernel
theorem dX8_sign_0 : decode cX8_sign 0 = .ok (.aload_n 0, 1) := by decide +kernel
theorem dX8_sign_1 : decode cX8_sign 1 = .ok (.getfield 170, 3) := by decide +kernel
theorem dX8_sign_4 : decode cX8_sign 4 = .ok (.aload_n 0, 1) := by decide +kernel
theorem dX8_sign_5 : decode cX8_sign 5 = .ok (.getfield 141, 3) := by decide +kernel
theorem dX8_sign_8 : decode cX8_sign 8 = .ok (.if_icmp .ge 15, 3) := by decide +kernel
theorem dX8_sign_11 : decode cX8_sign 11 = .ok (.aload_n 0, 1) := by decide +kernel
theorem dX8_sign_12 : decode cX8_sign 12 = .ok (.getfield 43, 3) := by decide +kernel
theorem dX8_sign_15 : decode cX8_sign 15 = .ok (.aload_n 0, 1) := by decide +kernel
theorem dX8_sign_16 : decode cX8_sign 16 = .ok (.getfield 170, 3) := by decide +kernel
theorem dX8_sign_19 : decode cX8_sign 19 = .ok (.iaload, 1) := by decide +kernel
theorem dX8_sign_20 : decode cX8_sign 20 = .ok (.goto 4, 3) := by decide +kernel
theorem dX8_sign_23 : decode cX8_sign 23 = .ok (.iconst 0, 1) := by decide +kernel
theorem dX8_sign_24 : decode cX8_sign 24 = .ok (.ireturn, 1) := by decide +kernel
set_option maxRecDepth 20000 in
theorem ggX8_signBehindBlanks_X8_sign : GoodIn wsX8_signBehindBlanks wsX8_sign := goodIn_r _ [6, 1, 7, 8, 9, 10, 11, 12, 13, 14, 15, 16, 17, 18, 19, 20, 21, 22, 23, 24, 25, 26, 27] (by decide +kernel) (by decide +kernel)
set_option maxRecDepth 20000 in
theorem gX8_signBehindBlanks_X8_sign : GoodIn wsX8_signBehindBlanks (wsV RX8 173 RX8 yX8_sign wsX8_sign) := goodIn_app (goodIn_of _ (by decide +kernel)) ggX8_signBehindBlanks_X8_sign
theorem dX8_signBehindBlanks_0 : decode cX8_signBehindBlanks 0 = .ok (.aload_n 0, 1) := by decide +kernel
theorem dX8_signBehindBlanks_1 : decode cX8_signBehindBlanks 1 = .ok (.invokevirtual 173, 3) := by decide +kernel
theorem dX8_signBehindBlanks_4 : decode cX8_signBehindBlanks 4 = .ok (.bipush 32, 2) := by decide +kernel
theorem dX8_signBehindBlanks_6 : decode cX8_signBehindBlanks 6 = .ok (.if_icmp .eq 12, 3) := by decide +kernel
theorem dX8_signBehindBlanks_9 : decode cX8_signBehindBlanks 9 = .ok (.aload_n 0, 1) := by decide +kernel
theorem dX8_signBehindBlanks_10 : decode cX8_signBehindBlanks 10 = .ok (.invokevirtual 173, 3) := by decide +kernel
theorem dX8_signBehindBlanks_13 : decode cX8_signBehindBlanks 13 = .ok (.bipush 10, 2) := by decide +kernel
theorem dX8_signBehindBlanks_15 : decode cX8_signBehindBlanks 15 = .ok (.if_icmp .ne 16, 3) := by decide +kernel
theorem dX8_signBehindBlanks_18 : decode cX8_signBehindBlanks 18 = .ok (.aload_n 0, 1) := by decide +kernel
theorem dX8_signBehindBlanks_19 : decode cX8_signBehindBlanks 19 = .ok (.dup, 1) := by decide +kernel
theorem dX8_signBehindBlanks_20 : decode cX8_signBehindBlanks 20 = .ok (.getfield 170, 3) := by decide +kernel
theorem dX8_signBehindBlanks_23 : decode cX8_signBehindBlanks 23 = .ok (.iconst 1, 1) := by decide +kernel
theorem dX8_signBehindBlanks_24 : decode cX8_signBehindBlanks 24 = .ok (.iadd, 1) := by decide +kernel
theorem dX8_signBehindBlanks_25 : decode cX8_signBehindBlanks 25 = .ok (.putfield 170, 3) := by decide +kernel
theorem dX8_signBehindBlanks_28 : decode cX8_signBehindBlanks 28 = .ok (.goto (-28), 3) := by decide +kernel
theorem dX8_signBehindBlanks_31 : decode cX8_signBehindBlanks 31 = .ok (.aload_n 0, 1) := by decide +kernel
theorem dX8_signBehindBlanks_32 : decode cX8_signBehindBlanks 32 = .ok (.invokevirtual 173, 3) := by decide +kernel
theorem dX8_signBehindBlanks_35 : decode cX8_signBehindBlanks 35 = .ok (.ireturn, 1) := by decide +kernel
set_option maxRecDepth 20000 in
theorem ggX8_expects_X8_signBehindBlanks : GoodIn wsX8_expects wsX8_signBehindBlanks := goodIn_r _ [6, 1, 7, 8, 9, 5, 10, 11, 12, 19, 20, 21, 22, 23, 24, 25, 26, 27, 28, 29, 30, 31, 32, 33, 34, 35, 36, 37] (by decide +kernel) (by decide +kernel)
set_option maxRecDepth 20000 in
theorem gX8_expects_X8_signBehindBlanks : GoodIn wsX8_expects (wsV RX8 176 RX8 yX8_signBehindBlanks wsX8_signBehindBlanks) := goodIn_app (goodIn_of _ (by decide +kernel)) ggX8_expects_X8_signBehindBlanks
set_option maxRecDepth 20000 in
theorem ggX8_expects_X8_fails : GoodIn wsX8_expects wsX8_fails := goodIn_r _ [16, 17, 18, 19, 20, 21, 22, 23, 24, 25, 26, 27, 28, 29, 30, 31, 32, 33, 34, 35, 36, 37] (by decide +kernel) (by decide +kernel)
set_option maxRecDepth 20000 in
theorem gX8_expects_X8_fails : GoodIn wsX8_expects (wsV RX8 179 RX8 yX8_fails wsX8_fails) := goodIn_app (goodIn_of _ (by decide +kernel)) ggX8_expects_X8_fails
theorem dX8_expects_0 : decode cX8_expects 0 = .ok (.aload_n 0, 1) := by decide +kernel
theorem dX8_expects_1 : decode cX8_expects 1 = .ok (.invokevirtual 176, 3) := by decide +kernel
theorem dX8_expects_4 : decode cX8_expects 4 = .ok (.iload_n 1, 1) := by decide +kernel
theorem dX8_expects_5 : decode cX8_expects 5 = .ok (.if_icmp .ne 16, 3) := by decide +kernel
theorem dX8_expects_8 : decode cX8_expects 8 = .ok (.aload_n 0, 1) := by decide +kernel
theorem dX8_expects_9 : decode cX8_expects 9 = .ok (.dup, 1) := by decide +kernel
theorem dX8_expects_10 : decode cX8_expects 10 = .ok (.getfield 170, 3) := by decide +kernel
theorem dX8_expects_13 : decode cX8_expects 13 = .ok (.iconst 1, 1) := by decide +kernel
theorem dX8_expects_14 : decode cX8_expects 14 = .ok (.iadd, 1) := by decide +kernel
theorem dX8_expects_15 : decode cX8_expects 15 = .ok (.putfield 170, 3) := by decide +kernel
theorem dX8_expects_18 : decode cX8_expects 18 = .ok (.goto 12, 3) := by decide +kernel
theorem dX8_expects_21 : decode cX8_expects 21 = .ok (.aload_n 0, 1) := by decide +kernel
theorem dX8_expects_22 : decode cX8_expects 22 = .ok (.iconst 1, 1) := by decide +kernel
theorem dX8_expects_23 : decode cX8_expects 23 = .ok (.aload_n 0, 1) := by decide +kernel
theorem dX8_expects_24 : decode cX8_expects 24 = .ok (.getfield 170, 3) := by decide +kernel
theorem dX8_expects_27 : decode cX8_expects 27 = .ok (.invokevirtual 179, 3) := by decide +kernel
theorem dX8_expects_30 : decode cX8_expects 30 = .ok (.return_, 1) := by decide +kernel
set_option maxRecDepth 20000 in
theorem ggX8_number_X8_sign : GoodIn wsX8_number wsX8_sign := goodIn_r _ [10, 1, 11, 12, 22, 23, 24, 25, 26, 27, 28, 29, 30, 31, 32, 33, 34, 35, 36, 37, 38, 39, 40] (by decide +kernel) (by decide +kernel)
set_option maxRecDepth 20000 in
theorem gX8_number_X8_sign : GoodIn wsX8_number (wsV RX8 173 RX8 yX8_sign wsX8_sign) := goodIn_app (goodIn_of _ (by decide +kernel)) ggX8_number_X8_sign
set_option maxRecDepth 20000 in
theorem ggX8_number_X8_in : GoodIn wsX8_number wsX8_in := goodIn_r _ [15] (by decide +kernel) (by decide +kernel)
set_option maxRecDepth 20000 in
theorem gX8_number_X8_in : GoodIn wsX8_number (va_wsS RX8 7 yX8_in wsX8_in) := goodIn_app (goodIn_of _ (by decide +kernel)) ggX8_number_X8_in
set_option maxRecDepth 20000 in
theorem ggX8_number_X8_fails : GoodIn wsX8_number wsX8_fails := goodIn_r _ [19, 20, 21, 22, 23, 24, 25, 26, 27, 28, 29, 30, 31, 32, 33, 34, 35, 36, 37, 38, 39, 40] (by decide +kernel) (by decide +kernel)
set_option maxRecDepth 20000 in
theorem gX8_number_X8_fails : GoodIn wsX8_number (wsV RX8 179 RX8 yX8_fails wsX8_fails) := goodIn_app (goodIn_of _ (by decide +kernel)) ggX8_number_X8_fails
theorem dX8_number_0 : decode cX8_number 0 = .ok (.aload_n 0, 1) := by decide +kernel
theorem dX8_number_1 : decode cX8_number 1 = .ok (.getfield 170, 3) := by decide +kernel
theorem dX8_number_4 : decode cX8_number 4 = .ok (.istore_n 1, 1) := by decide +kernel
theorem dX8_number_5 : decode cX8_number 5 = .ok (.aload_n 0, 1) := by decide +kernel
theorem dX8_number_6 : decode cX8_number 6 = .ok (.invokevirtual 173, 3) := by decide +kernel
theorem dX8_number_9 : decode cX8_number 9 = .ok (.bipush 45, 2) := by decide +kernel
theorem dX8_number_11 : decode cX8_number 11 = .ok (.if_icmp .ne 7, 3) := by decide +kernel
theorem dX8_number_14 : decode cX8_number 14 = .ok (.iconst 1, 1) := by decide +kernel
theorem dX8_number_15 : decode cX8_number 15 = .ok (.goto 4, 3) := by decide +kernel
theorem dX8_number_18 : decode cX8_number 18 = .ok (.iconst 0, 1) := by decide +kernel
theorem dX8_number_19 : decode cX8_number 19 = .ok (.istore_n 2, 1) := by decide +kernel
theorem dX8_number_20 : decode cX8_number 20 = .ok (.aload_n 0, 1) := by decide +kernel
theorem dX8_number_21 : decode cX8_number 21 = .ok (.dup, 1) := by decide +kernel
theorem dX8_number_22 : decode cX8_number 22 = .ok (.getfield 170, 3) := by decide +kernel
theorem dX8_number_25 : decode cX8_number 25 = .ok (.iload_n 2, 1) := by decide +kernel
theorem dX8_number_26 : decode cX8_number 26 = .ok (.ifCond .eq 7, 3) := by decide +kernel
theorem dX8_number_29 : decode cX8_number 29 = .ok (.iconst 1, 1) := by decide +kernel
theorem dX8_number_30 : decode cX8_number 30 = .ok (.goto 4, 3) := by decide +kernel
theorem dX8_number_33 : decode cX8_number 33 = .ok (.iconst 0, 1) := by decide +kernel
theorem dX8_number_34 : decode cX8_number 34 = .ok (.iadd, 1) := by decide +kernel
theorem dX8_number_35 : decode cX8_number 35 = .ok (.putfield 170, 3) := by decide +kernel
theorem dX8_number_38 : decode cX8_number 38 = .ok (.aload_n 0, 1) := by decide +kernel
theorem dX8_number_39 : decode cX8_number 39 = .ok (.invokevirtual 173, 3) := by decide +kernel
theorem dX8_number_42 : decode cX8_number 42 = .ok (.bipush 48, 2) := by decide +kernel
theorem dX8_number_44 : decode cX8_number 44 = .ok (.bipush 57, 2) := by decide +kernel
theorem dX8_number_46 : decode cX8_number 46 = .ok (.invokestatic 7, 3) := by decide +kernel
theorem dX8_number_49 : decode cX8_number 49 = .ok (.ifCond .ne 14, 3) := by decide +kernel
theorem dX8_number_52 : decode cX8_number 52 = .ok (.aload_n 0, 1) := by decide +kernel
theorem dX8_number_53 : decode cX8_number 53 = .ok (.iconst 1, 1) := by decide +kernel
theorem dX8_number_54 : decode cX8_number 54 = .ok (.aload_n 0, 1) := by decide +kernel
theorem dX8_number_55 : decode cX8_number 55 = .ok (.getfield 170, 3) := by decide +kernel
theorem dX8_number_58 : decode cX8_number 58 = .ok (.invokevirtual 179, 3) := by decide +kernel
theorem dX8_number_61 : decode cX8_number 61 = .ok (.iconst 0, 1) := by decide +kernel
theorem dX8_number_62 : decode cX8_number 62 = .ok (.ireturn, 1) := by decide +kernel
theorem dX8_number_63 : decode cX8_number 63 = .ok (.iconst 0, 1) := by decide +kernel
theorem dX8_number_64 : decode cX8_number 64 = .ok (.istore_n 3, 1) := by decide +kernel
theorem dX8_number_65 : decode cX8_number 65 = .ok (.aload_n 0, 1) := by decide +kernel
theorem dX8_number_66 : decode cX8_number 66 = .ok (.invokevirtual 173, 3) := by decide +kernel
theorem dX8_number_69 : decode cX8_number 69 = .ok (.bipush 48, 2) := by decide +kernel
theorem dX8_number_71 : decode cX8_number 71 = .ok (.bipush 57, 2) := by decide +kernel
theorem dX8_number_73 : decode cX8_number 73 = .ok (.invokestatic 7, 3) := by decide +kernel
theorem dX8_number_76 : decode cX8_number 76 = .ok (.ifCond .eq 34, 3) := by decide +kernel
theorem dX8_number_79 : decode cX8_number 79 = .ok (.bipush 10, 2) := by decide +kernel
theorem dX8_number_81 : decode cX8_number 81 = .ok (.iload_n 3, 1) := by decide +kernel
theorem dX8_number_82 : decode cX8_number 82 = .ok (.imul, 1) := by decide +kernel
theorem dX8_number_83 : decode cX8_number 83 = .ok (.aload_n 0, 1) := by decide +kernel
theorem dX8_number_84 : decode cX8_number 84 = .ok (.invokevirtual 173, 3) := by decide +kernel
theorem dX8_number_87 : decode cX8_number 87 = .ok (.iadd, 1) := by decide +kernel
theorem dX8_number_88 : decode cX8_number 88 = .ok (.bipush 48, 2) := by decide +kernel
theorem dX8_number_90 : decode cX8_number 90 = .ok (.isub, 1) := by decide +kernel
theorem dX8_number_91 : decode cX8_number 91 = .ok (.bipush 51, 2) := by decide +kernel
theorem dX8_number_93 : decode cX8_number 93 = .ok (.invokestatic 183, 3) := by decide +kernel
theorem dX8_number_96 : decode cX8_number 96 = .ok (.istore_n 3, 1) := by decide +kernel
theorem dX8_number_97 : decode cX8_number 97 = .ok (.aload_n 0, 1) := by decide +kernel
theorem dX8_number_98 : decode cX8_number 98 = .ok (.dup, 1) := by decide +kernel
theorem dX8_number_99 : decode cX8_number 99 = .ok (.getfield 170, 3) := by decide +kernel
theorem dX8_number_102 : decode cX8_number 102 = .ok (.iconst 1, 1) := by decide +kernel
theorem dX8_number_103 : decode cX8_number 103 = .ok (.iadd, 1) := by decide +kernel
theorem dX8_number_104 : decode cX8_number 104 = .ok (.putfield 170, 3) := by decide +kernel
theorem dX8_number_107 : decode cX8_number 107 = .ok (.goto (-42), 3) := by decide +kernel
theorem dX8_number_110 : decode cX8_number 110 = .ok (.iload_n 3, 1) := by decide +kernel
theorem dX8_number_111 : decode cX8_number 111 = .ok (.bipush 50, 2) := by decide +kernel
theorem dX8_number_113 : decode cX8_number 113 = .ok (.if_icmp .le 9, 3) := by decide +kernel
theorem dX8_number_116 : decode cX8_number 116 = .ok (.aload_n 0, 1) := by decide +kernel
theorem dX8_number_117 : decode cX8_number 117 = .ok (.iconst 2, 1) := by decide +kernel
theorem dX8_number_118 : decode cX8_number 118 = .ok (.iload_n 1, 1) := by decide +kernel
theorem dX8_number_119 : decode cX8_number 119 = .ok (.invokevirtual 179, 3) := by decide +kernel
theorem dX8_number_122 : decode cX8_number 122 = .ok (.iload_n 2, 1) := by decide +kernel
theorem dX8_number_123 : decode cX8_number 123 = .ok (.ifCond .eq 8, 3) := by decide +kernel
theorem dX8_number_126 : decode cX8_number 126 = .ok (.iload_n 3, 1) := by decide +kernel
theorem dX8_number_127 : decode cX8_number 127 = .ok (.ineg, 1) := by decide +kernel
theorem dX8_number_128 : decode cX8_number 128 = .ok (.goto 4, 3) := by decide +kernel
theorem dX8_number_131 : decode cX8_number 131 = .ok (.iload_n 3, 1) := by decide +kernel
theorem dX8_number_132 : decode cX8_number 132 = .ok (.ireturn, 1) := by decide +kernel
set_option maxRecDepth 20000 in
theorem ggX8_item_X8_signBehindBlanks : GoodIn wsX8_item wsX8_signBehindBlanks := goodIn_r _ [7, 1, 8, 9, 10, 6, 11, 12, 13, 33, 34, 35, 36, 37, 38, 39, 40, 41, 42, 43, 44, 45, 46, 47, 48, 49, 50, 51] (by decide +kernel) (by decide +kernel)
set_option maxRecDepth 20000 in
theorem gX8_item_X8_signBehindBlanks : GoodIn wsX8_item (wsV RX8 176 RX8 yX8_signBehindBlanks wsX8_signBehindBlanks) := goodIn_app (goodIn_of _ (by decide +kernel)) ggX8_item_X8_signBehindBlanks
set_option maxRecDepth 20000 in
theorem ggX8_item_X8_number : GoodIn wsX8_item wsX8_number := goodIn_r _ [17, 1, 18, 19, 20, 21, 8, 9, 10, 6, 11, 12, 13, 22, 23, 24, 25, 26, 27, 28, 2, 29, 33, 34, 35, 36, 37, 38, 39, 40, 41, 42, 43, 44, 45, 46, 47, 48, 49, 50, 51] (by decide +kernel) (by decide +kernel)
set_option maxRecDepth 20000 in
theorem gX8_item_X8_number : GoodIn wsX8_item (wsV RX8 189 RX8 yX8_number wsX8_number) := goodIn_app (goodIn_of _ (by decide +kernel)) ggX8_item_X8_number
set_option maxRecDepth 20000 in
theorem ggX8_item_X8_sign : GoodIn wsX8_item wsX8_sign := goodIn_r _ [11, 1, 12, 13, 33, 34, 35, 36, 37, 38, 39, 40, 41, 42, 43, 44, 45, 46, 47, 48, 49, 50, 51] (by decide +kernel) (by decide +kernel)
set_option maxRecDepth 20000 in
theorem gX8_item_X8_sign : GoodIn wsX8_item (wsV RX8 173 RX8 yX8_sign wsX8_sign) := goodIn_app (goodIn_of _ (by decide +kernel)) ggX8_item_X8_sign
set_option maxRecDepth 20000 in
theorem ggX8_item_X8_fails : GoodIn wsX8_item wsX8_fails := goodIn_r _ [28, 2, 29, 33, 34, 35, 36, 37, 38, 39, 40, 41, 42, 43, 44, 45, 46, 47, 48, 49, 50, 51] (by decide +kernel) (by decide +kernel)
set_option maxRecDepth 20000 in
theorem gX8_item_X8_fails : GoodIn wsX8_item (wsV RX8 179 RX8 yX8_fails wsX8_fails) := goodIn_app (goodIn_of _ (by decide +kernel)) ggX8_item_X8_fails
set_option maxRecDepth 20000 in
theorem ggX8_item_X8_placeOfMember : GoodIn wsX8_item wsX8_placeOfMember := goodIn_r _ [32] (by decide +kernel) (by decide +kernel)
set_option maxRecDepth 20000 in
theorem gX8_item_X8_placeOfMember : GoodIn wsX8_item (va_wsS RX8 62 yX8_placeOfMember wsX8_placeOfMember) := goodIn_app (goodIn_of _ (by decide +kernel)) ggX8_item_X8_placeOfMember
theorem dX8_item_0 : decode cX8_item 0 = .ok (.aload_n 0, 1) := by decide +kernel
theorem dX8_item_1 : decode cX8_item 1 = .ok (.invokevirtual 176, 3) := by decide +kernel
theorem dX8_item_4 : decode cX8_item 4 = .ok (.bipush 35, 2) := by decide +kernel
theorem dX8_item_6 : decode cX8_item 6 = .ok (.if_icmp .ne 18, 3) := by decide +kernel
theorem dX8_item_9 : decode cX8_item 9 = .ok (.aload_n 1, 1) := by decide +kernel
theorem dX8_item_10 : decode cX8_item 10 = .ok (.iconst 0, 1) := by decide +kernel
theorem dX8_item_11 : decode cX8_item 11 = .ok (.iconst 1, 1) := by decide +kernel
theorem dX8_item_12 : decode cX8_item 12 = .ok (.bastore, 1) := by decide +kernel
theorem dX8_item_13 : decode cX8_item 13 = .ok (.aload_n 0, 1) := by decide +kernel
theorem dX8_item_14 : decode cX8_item 14 = .ok (.dup, 1) := by decide +kernel
theorem dX8_item_15 : decode cX8_item 15 = .ok (.getfield 170, 3) := by decide +kernel
theorem dX8_item_18 : decode cX8_item 18 = .ok (.iconst 1, 1) := by decide +kernel
theorem dX8_item_19 : decode cX8_item 19 = .ok (.iadd, 1) := by decide +kernel
theorem dX8_item_20 : decode cX8_item 20 = .ok (.putfield 170, 3) := by decide +kernel
theorem dX8_item_23 : decode cX8_item 23 = .ok (.return_, 1) := by decide +kernel
theorem dX8_item_24 : decode cX8_item 24 = .ok (.aload_n 0, 1) := by decide +kernel
theorem dX8_item_25 : decode cX8_item 25 = .ok (.invokevirtual 189, 3) := by decide +kernel
theorem dX8_item_28 : decode cX8_item 28 = .ok (.istore_n 2, 1) := by decide +kernel
theorem dX8_item_29 : decode cX8_item 29 = .ok (.iload_n 2, 1) := by decide +kernel
theorem dX8_item_30 : decode cX8_item 30 = .ok (.istore_n 3, 1) := by decide +kernel
theorem dX8_item_31 : decode cX8_item 31 = .ok (.aload_n 0, 1) := by decide +kernel
theorem dX8_item_32 : decode cX8_item 32 = .ok (.getfield 164, 3) := by decide +kernel
theorem dX8_item_35 : decode cX8_item 35 = .ok (.ifCond .ne 87, 3) := by decide +kernel
theorem dX8_item_38 : decode cX8_item 38 = .ok (.aload_n 0, 1) := by decide +kernel
theorem dX8_item_39 : decode cX8_item 39 = .ok (.invokevirtual 176, 3) := by decide +kernel
theorem dX8_item_42 : decode cX8_item 42 = .ok (.bipush 46, 2) := by decide +kernel
theorem dX8_item_44 : decode cX8_item 44 = .ok (.if_icmp .ne 78, 3) := by decide +kernel
theorem dX8_item_47 : decode cX8_item 47 = .ok (.aload_n 0, 1) := by decide +kernel
theorem dX8_item_48 : decode cX8_item 48 = .ok (.dup, 1) := by decide +kernel
theorem dX8_item_49 : decode cX8_item 49 = .ok (.getfield 170, 3) := by decide +kernel
theorem dX8_item_52 : decode cX8_item 52 = .ok (.iconst 1, 1) := by decide +kernel
theorem dX8_item_53 : decode cX8_item 53 = .ok (.iadd, 1) := by decide +kernel
theorem dX8_item_54 : decode cX8_item 54 = .ok (.putfield 170, 3) := by decide +kernel
theorem dX8_item_57 : decode cX8_item 57 = .ok (.aload_n 0, 1) := by decide +kernel
theorem dX8_item_58 : decode cX8_item 58 = .ok (.invokevirtual 173, 3) := by decide +kernel
theorem dX8_item_61 : decode cX8_item 61 = .ok (.bipush 46, 2) := by decide +kernel
theorem dX8_item_63 : decode cX8_item 63 = .ok (.if_icmp .eq 13, 3) := by decide +kernel
theorem dX8_item_66 : decode cX8_item 66 = .ok (.aload_n 0, 1) := by decide +kernel
theorem dX8_item_67 : decode cX8_item 67 = .ok (.iconst 1, 1) := by decide +kernel
theorem dX8_item_68 : decode cX8_item 68 = .ok (.aload_n 0, 1) := by decide +kernel
theorem dX8_item_69 : decode cX8_item 69 = .ok (.getfield 170, 3) := by decide +kernel
theorem dX8_item_72 : decode cX8_item 72 = .ok (.invokevirtual 179, 3) := by decide +kernel
theorem dX8_item_75 : decode cX8_item 75 = .ok (.return_, 1) := by decide +kernel
theorem dX8_item_76 : decode cX8_item 76 = .ok (.aload_n 0, 1) := by decide +kernel
theorem dX8_item_77 : decode cX8_item 77 = .ok (.dup, 1) := by decide +kernel
theorem dX8_item_78 : decode cX8_item 78 = .ok (.getfield 170, 3) := by decide +kernel
theorem dX8_item_81 : decode cX8_item 81 = .ok (.iconst 1, 1) := by decide +kernel
theorem dX8_item_82 : decode cX8_item 82 = .ok (.iadd, 1) := by decide +kernel
theorem dX8_item_83 : decode cX8_item 83 = .ok (.putfield 170, 3) := by decide +kernel
theorem dX8_item_86 : decode cX8_item 86 = .ok (.aload_n 0, 1) := by decide +kernel
theorem dX8_item_87 : decode cX8_item 87 = .ok (.invokevirtual 176, 3) := by decide +kernel
theorem dX8_item_90 : decode cX8_item 90 = .ok (.istore 4, 2) := by decide +kernel
theorem dX8_item_92 : decode cX8_item 92 = .ok (.aload_n 0, 1) := by decide +kernel
theorem dX8_item_93 : decode cX8_item 93 = .ok (.getfield 170, 3) := by decide +kernel
theorem dX8_item_96 : decode cX8_item 96 = .ok (.istore 5, 2) := by decide +kernel
theorem dX8_item_98 : decode cX8_item 98 = .ok (.aload_n 0, 1) := by decide +kernel
theorem dX8_item_99 : decode cX8_item 99 = .ok (.invokevirtual 189, 3) := by decide +kernel
theorem dX8_item_102 : decode cX8_item 102 = .ok (.istore_n 3, 1) := by decide +kernel
theorem dX8_item_103 : decode cX8_item 103 = .ok (.aload_n 0, 1) := by decide +kernel
theorem dX8_item_104 : decode cX8_item 104 = .ok (.getfield 164, 3) := by decide +kernel
theorem dX8_item_107 : decode cX8_item 107 = .ok (.ifCond .ne 15, 3) := by decide +kernel
theorem dX8_item_110 : decode cX8_item 110 = .ok (.iload_n 3, 1) := by decide +kernel
theorem dX8_item_111 : decode cX8_item 111 = .ok (.iload_n 2, 1) := by decide +kernel
theorem dX8_item_112 : decode cX8_item 112 = .ok (.if_icmp .ge 10, 3) := by decide +kernel
theorem dX8_item_115 : decode cX8_item 115 = .ok (.aload_n 0, 1) := by decide +kernel
theorem dX8_item_116 : decode cX8_item 116 = .ok (.iconst 2, 1) := by decide +kernel
theorem dX8_item_117 : decode cX8_item 117 = .ok (.iload 5, 2) := by decide +kernel
theorem dX8_item_119 : decode cX8_item 119 = .ok (.invokevirtual 179, 3) := by decide +kernel
theorem dX8_item_122 : decode cX8_item 122 = .ok (.iload_n 2, 1) := by decide +kernel
theorem dX8_item_123 : decode cX8_item 123 = .ok (.istore 4, 2) := by decide +kernel
theorem dX8_item_125 : decode cX8_item 125 = .ok (.aload_n 0, 1) := by decide +kernel
theorem dX8_item_126 : decode cX8_item 126 = .ok (.getfield 164, 3) := by decide +kernel
theorem dX8_item_129 : decode cX8_item 129 = .ok (.ifCond .ne 23, 3) := by decide +kernel
theorem dX8_item_132 : decode cX8_item 132 = .ok (.iload 4, 2) := by decide +kernel
theorem dX8_item_134 : decode cX8_item 134 = .ok (.iload_n 3, 1) := by decide +kernel
theorem dX8_item_135 : decode cX8_item 135 = .ok (.if_icmp .gt 17, 3) := by decide +kernel
theorem dX8_item_138 : decode cX8_item 138 = .ok (.aload_n 1, 1) := by decide +kernel
theorem dX8_item_139 : decode cX8_item 139 = .ok (.iload 4, 2) := by decide +kernel
theorem dX8_item_141 : decode cX8_item 141 = .ok (.invokestatic 62, 3) := by decide +kernel
theorem dX8_item_144 : decode cX8_item 144 = .ok (.iconst 1, 1) := by decide +kernel
theorem dX8_item_145 : decode cX8_item 145 = .ok (.bastore, 1) := by decide +kernel
theorem dX8_item_146 : decode cX8_item 146 = .ok (.iinc 4 1, 3) := by decide +kernel
theorem dX8_item_149 : decode cX8_item 149 = .ok (.goto (-24), 3) := by decide +kernel
theorem dX8_item_152 : decode cX8_item 152 = .ok (.return_, 1) := by decide +kernel
set_option maxRecDepth 20000 in
theorem ggX8_braces_X8_joins : GoodIn wsX8_braces wsX8_joins := goodIn_r _ [6] (by decide +kernel) (by decide +kernel)
set_option maxRecDepth 20000 in
theorem gX8_braces_X8_joins : GoodIn wsX8_braces (va_wsS RX8 87 yX8_joins wsX8_joins) := goodIn_app (goodIn_of _ (by decide +kernel)) ggX8_braces_X8_joins
set_option maxRecDepth 20000 in
theorem ggX8_braces_X8_expects : GoodIn wsX8_braces wsX8_expects := goodIn_r _ [10, 1, 11, 12, 13, 5, 14, 15, 16, 17, 18, 19, 20, 21, 22, 23, 24, 2, 25, 44, 45, 46, 47, 48, 49, 50, 51, 52, 53, 54, 55, 56, 57, 58, 59, 60, 61, 62] (by decide +kernel) (by decide +kernel)
set_option maxRecDepth 20000 in
theorem gX8_braces_X8_expects : GoodIn wsX8_braces (wsV RX8 192 RX8 yX8_expects wsX8_expects) := goodIn_app (goodIn_of _ (by decide +kernel)) ggX8_braces_X8_expects
set_option maxRecDepth 20000 in
theorem ggX8_braces_X8_signBehindBlanks : GoodIn wsX8_braces wsX8_signBehindBlanks := goodIn_r _ [14, 1, 15, 16, 17, 5, 18, 19, 20, 44, 45, 46, 47, 48, 49, 50, 51, 52, 53, 54, 55, 56, 57, 58, 59, 60, 61, 62] (by decide +kernel) (by decide +kernel)
set_option maxRecDepth 20000 in
theorem gX8_braces_X8_signBehindBlanks : GoodIn wsX8_braces (wsV RX8 176 RX8 yX8_signBehindBlanks wsX8_signBehindBlanks) := goodIn_app (goodIn_of _ (by decide +kernel)) ggX8_braces_X8_signBehindBlanks
set_option maxRecDepth 20000 in
theorem ggX8_braces_X8_item : GoodIn wsX8_braces wsX8_item := goodIn_r _ [29, 1, 2, 11, 12, 13, 5, 14, 15, 16, 17, 18, 19, 20, 30, 31, 32, 33, 34, 35, 36, 37, 38, 39, 40, 21, 22, 23, 24, 25, 41, 42, 43, 44, 45, 46, 47, 48, 49, 50, 51, 52, 53, 54, 55, 56, 57, 58, 59, 60, 61, 62] (by decide +kernel) (by decide +kernel)
set_option maxRecDepth 20000 in
theorem gX8_braces_X8_item : GoodIn wsX8_braces (wsV RX8 196 RX8 yX8_item wsX8_item) := goodIn_app (goodIn_of _ (by decide +kernel)) ggX8_braces_X8_item
theorem dX8_braces_0 : decode cX8_braces 0 = .ok (.aload_n 1, 1) := by decide +kernel
theorem dX8_braces_1 : decode cX8_braces 1 = .ok (.aload_n 1, 1) := by decide +kernel
theorem dX8_braces_2 : decode cX8_braces 2 = .ok (.iconst 2, 1) := by decide +kernel
theorem dX8_braces_3 : decode cX8_braces 3 = .ok (.aload_n 1, 1) := by decide +kernel
theorem dX8_braces_4 : decode cX8_braces 4 = .ok (.invokestatic 87, 3) := by decide +kernel
theorem dX8_braces_7 : decode cX8_braces 7 = .ok (.aload_n 0, 1) := by decide +kernel
theorem dX8_braces_8 : decode cX8_braces 8 = .ok (.bipush 123, 2) := by decide +kernel
theorem dX8_braces_10 : decode cX8_braces 10 = .ok (.invokevirtual 192, 3) := by decide +kernel
theorem dX8_braces_13 : decode cX8_braces 13 = .ok (.aload_n 0, 1) := by decide +kernel
theorem dX8_braces_14 : decode cX8_braces 14 = .ok (.invokevirtual 176, 3) := by decide +kernel
theorem dX8_braces_17 : decode cX8_braces 17 = .ok (.bipush 125, 2) := by decide +kernel
theorem dX8_braces_19 : decode cX8_braces 19 = .ok (.if_icmp .ne 14, 3) := by decide +kernel
theorem dX8_braces_22 : decode cX8_braces 22 = .ok (.aload_n 0, 1) := by decide +kernel
theorem dX8_braces_23 : decode cX8_braces 23 = .ok (.dup, 1) := by decide +kernel
theorem dX8_braces_24 : decode cX8_braces 24 = .ok (.getfield 170, 3) := by decide +kernel
theorem dX8_braces_27 : decode cX8_braces 27 = .ok (.iconst 1, 1) := by decide +kernel
theorem dX8_braces_28 : decode cX8_braces 28 = .ok (.iadd, 1) := by decide +kernel
theorem dX8_braces_29 : decode cX8_braces 29 = .ok (.putfield 170, 3) := by decide +kernel
theorem dX8_braces_32 : decode cX8_braces 32 = .ok (.return_, 1) := by decide +kernel
theorem dX8_braces_33 : decode cX8_braces 33 = .ok (.aload_n 0, 1) := by decide +kernel
theorem dX8_braces_34 : decode cX8_braces 34 = .ok (.aload_n 1, 1) := by decide +kernel
theorem dX8_braces_35 : decode cX8_braces 35 = .ok (.invokevirtual 196, 3) := by decide +kernel
theorem dX8_braces_38 : decode cX8_braces 38 = .ok (.aload_n 0, 1) := by decide +kernel
theorem dX8_braces_39 : decode cX8_braces 39 = .ok (.getfield 164, 3) := by decide +kernel
theorem dX8_braces_42 : decode cX8_braces 42 = .ok (.ifCond .ne 30, 3) := by decide +kernel
theorem dX8_braces_45 : decode cX8_braces 45 = .ok (.aload_n 0, 1) := by decide +kernel
theorem dX8_braces_46 : decode cX8_braces 46 = .ok (.invokevirtual 176, 3) := by decide +kernel
theorem dX8_braces_49 : decode cX8_braces 49 = .ok (.bipush 44, 2) := by decide +kernel
theorem dX8_braces_51 : decode cX8_braces 51 = .ok (.if_icmp .ne 21, 3) := by decide +kernel
theorem dX8_braces_54 : decode cX8_braces 54 = .ok (.aload_n 0, 1) := by decide +kernel
theorem dX8_braces_55 : decode cX8_braces 55 = .ok (.dup, 1) := by decide +kernel
theorem dX8_braces_56 : decode cX8_braces 56 = .ok (.getfield 170, 3) := by decide +kernel
theorem dX8_braces_59 : decode cX8_braces 59 = .ok (.iconst 1, 1) := by decide +kernel
theorem dX8_braces_60 : decode cX8_braces 60 = .ok (.iadd, 1) := by decide +kernel
theorem dX8_braces_61 : decode cX8_braces 61 = .ok (.putfield 170, 3) := by decide +kernel
theorem dX8_braces_64 : decode cX8_braces 64 = .ok (.aload_n 0, 1) := by decide +kernel
theorem dX8_braces_65 : decode cX8_braces 65 = .ok (.aload_n 1, 1) := by decide +kernel
theorem dX8_braces_66 : decode cX8_braces 66 = .ok (.invokevirtual 196, 3) := by decide +kernel
theorem dX8_braces_69 : decode cX8_braces 69 = .ok (.goto (-31), 3) := by decide +kernel
theorem dX8_braces_72 : decode cX8_braces 72 = .ok (.aload_n 0, 1) := by decide +kernel
theorem dX8_braces_73 : decode cX8_braces 73 = .ok (.getfield 164, 3) := by decide +kernel
theorem dX8_braces_76 : decode cX8_braces 76 = .ok (.ifCond .ne 9, 3) := by decide +kernel
theorem dX8_braces_79 : decode cX8_braces 79 = .ok (.aload_n 0, 1) := by decide +kernel
theorem dX8_braces_80 : decode cX8_braces 80 = .ok (.bipush 125, 2) := by decide +kernel
theorem dX8_braces_82 : decode cX8_braces 82 = .ok (.invokevirtual 192, 3) := by decide +kernel
theorem dX8_braces_85 : decode cX8_braces 85 = .ok (.return_, 1) := by decide +kernel
set_option maxRecDepth 20000 in
theorem ggX8_factor_X8_signBehindBlanks : GoodIn wsX8_factor wsX8_signBehindBlanks := goodIn_r _ [11, 4, 12, 13, 14, 10, 15, 16, 17, 70, 71, 72, 73, 74, 75, 76, 77, 78, 79, 80, 81, 82, 83, 84, 85, 86, 87, 88] (by decide +kernel) (by decide +kernel)
set_option maxRecDepth 20000 in
theorem gX8_factor_X8_signBehindBlanks : GoodIn wsX8_factor (wsV RX8 176 RX8 yX8_signBehindBlanks wsX8_signBehindBlanks) := goodIn_app (goodIn_of _ (by decide +kernel)) ggX8_factor_X8_signBehindBlanks
set_option maxRecDepth 20000 in
theorem ggX8_factor_X8_in : GoodIn wsX8_factor wsX8_in := goodIn_r _ [20] (by decide +kernel) (by decide +kernel)
set_option maxRecDepth 20000 in
theorem gX8_factor_X8_in : GoodIn wsX8_factor (va_wsS RX8 7 yX8_in wsX8_in) := goodIn_app (goodIn_of _ (by decide +kernel)) ggX8_factor_X8_in
set_option maxRecDepth 20000 in
theorem ggX8_factor_X8_copies : GoodIn wsX8_factor wsX8_copies := goodIn_r _ [23] (by decide +kernel) (by decide +kernel)
set_option maxRecDepth 20000 in
theorem gX8_factor_X8_copies : GoodIn wsX8_factor (va_wsS RX8 95 yX8_copies wsX8_copies) := goodIn_app (goodIn_of _ (by decide +kernel)) ggX8_factor_X8_copies
set_option maxRecDepth 20000 in
theorem ggX8_factor_X8_braces : GoodIn wsX8_factor wsX8_braces := goodIn_r _ [27, 4, 6, 28, 29, 10, 30, 31, 32, 33, 34, 7, 8, 9, 11, 12, 13, 14, 15, 16, 17, 35, 36, 37, 38, 39, 40, 41, 42, 43, 44, 45, 46, 47, 48, 49, 50, 51, 18, 19, 20, 52, 53, 54, 70, 71, 72, 73, 74, 75, 76, 77, 78, 79, 80, 81, 82, 83, 84, 85, 86, 87, 88] (by decide +kernel) (by decide +kernel)
set_option maxRecDepth 20000 in
theorem gX8_factor_X8_braces : GoodIn wsX8_factor (wsV RX8 203 RX8 yX8_braces wsX8_braces) := goodIn_app (goodIn_of _ (by decide +kernel)) ggX8_factor_X8_braces
set_option maxRecDepth 20000 in
theorem ggX8_factor_X8_sums : GoodIn wsX8_factor wsX8_sums := goodIn_r _ [66, 6, 4, 67, 68, 69, 10, 7, 8, 9, 11, 12, 13, 14, 15, 16, 17, 62, 63, 64, 65, 3, 2, 28, 29, 30, 0, 1, 5, 18, 19, 20, 21, 22, 23, 24, 25, 26, 27, 31, 32, 33, 34, 35, 36, 37, 38, 39, 40, 41, 42, 43, 44, 45, 46, 47, 48, 49, 50, 51, 52, 53, 54, 55, 56, 57, 58, 59, 60, 61, 70, 71, 72, 73, 74, 75, 76, 77, 78, 79, 80, 81, 82, 83, 84, 85, 86, 87, 88] (by decide +kernel) (by decide +kernel)
set_option maxRecDepth 20000 in
theorem gX8_factor_X8_sums : GoodIn wsX8_factor (wsV RX8 209 RX8 yX8_sums wsX8_sums) := goodIn_app (goodIn_of _ (by decide +kernel)) ggX8_factor_X8_sums
set_option maxRecDepth 20000 in
theorem ggX8_factor_X8_expects : GoodIn wsX8_factor wsX8_expects := goodIn_r _ [34, 4, 7, 8, 9, 10, 11, 12, 13, 14, 15, 16, 17, 35, 36, 37, 38, 6, 39, 70, 71, 72, 73, 74, 75, 76, 77, 78, 79, 80, 81, 82, 83, 84, 85, 86, 87, 88] (by decide +kernel) (by decide +kernel)
set_option maxRecDepth 20000 in
theorem gX8_factor_X8_expects : GoodIn wsX8_factor (wsV RX8 192 RX8 yX8_expects wsX8_expects) := goodIn_app (goodIn_of _ (by decide +kernel)) ggX8_factor_X8_expects
set_option maxRecDepth 20000 in
theorem ggX8_factor_X8_fails : GoodIn wsX8_factor wsX8_fails := goodIn_r _ [38, 6, 39, 70, 71, 72, 73, 74, 75, 76, 77, 78, 79, 80, 81, 82, 83, 84, 85, 86, 87, 88] (by decide +kernel) (by decide +kernel)
set_option maxRecDepth 20000 in
theorem gX8_factor_X8_fails : GoodIn wsX8_factor (wsV RX8 179 RX8 yX8_fails wsX8_fails) := goodIn_app (goodIn_of _ (by decide +kernel)) ggX8_factor_X8_fails
theorem dX8_factor_0 : decode cX8_factor 0 = .ok (.aload_n 0, 1) := by decide +kernel
theorem dX8_factor_1 : decode cX8_factor 1 = .ok (.invokevirtual 176, 3) := by decide +kernel
theorem dX8_factor_4 : decode cX8_factor 4 = .ok (.istore_n 1, 1) := by decide +kernel
theorem dX8_factor_5 : decode cX8_factor 5 = .ok (.iload_n 1, 1) := by decide +kernel
theorem dX8_factor_6 : decode cX8_factor 6 = .ok (.bipush 97, 2) := by decide +kernel
theorem dX8_factor_8 : decode cX8_factor 8 = .ok (.bipush 104, 2) := by decide +kernel
theorem dX8_factor_10 : decode cX8_factor 10 = .ok (.invokestatic 7, 3) := by decide +kernel
theorem dX8_factor_13 : decode cX8_factor 13 = .ok (.ifCond .eq 47, 3) := by decide +kernel
theorem dX8_factor_16 : decode cX8_factor 16 = .ok (.aload_n 0, 1) := by decide +kernel
theorem dX8_factor_17 : decode cX8_factor 17 = .ok (.getfield 27, 3) := by decide +kernel
theorem dX8_factor_20 : decode cX8_factor 20 = .ok (.iload_n 1, 1) := by decide +kernel
theorem dX8_factor_21 : decode cX8_factor 21 = .ok (.bipush 97, 2) := by decide +kernel
theorem dX8_factor_23 : decode cX8_factor 23 = .ok (.isub, 1) := by decide +kernel
theorem dX8_factor_24 : decode cX8_factor 24 = .ok (.aaload, 1) := by decide +kernel
theorem dX8_factor_25 : decode cX8_factor 25 = .ok (.aload_n 0, 1) := by decide +kernel
theorem dX8_factor_26 : decode cX8_factor 26 = .ok (.getfield 47, 3) := by decide +kernel
theorem dX8_factor_29 : decode cX8_factor 29 = .ok (.aload_n 0, 1) := by decide +kernel
theorem dX8_factor_30 : decode cX8_factor 30 = .ok (.getfield 200, 3) := by decide +kernel
theorem dX8_factor_33 : decode cX8_factor 33 = .ok (.aaload, 1) := by decide +kernel
theorem dX8_factor_34 : decode cX8_factor 34 = .ok (.invokestatic 95, 3) := by decide +kernel
theorem dX8_factor_37 : decode cX8_factor 37 = .ok (.aload_n 0, 1) := by decide +kernel
theorem dX8_factor_38 : decode cX8_factor 38 = .ok (.dup, 1) := by decide +kernel
theorem dX8_factor_39 : decode cX8_factor 39 = .ok (.getfield 200, 3) := by decide +kernel
theorem dX8_factor_42 : decode cX8_factor 42 = .ok (.iconst 1, 1) := by decide +kernel
theorem dX8_factor_43 : decode cX8_factor 43 = .ok (.iadd, 1) := by decide +kernel
theorem dX8_factor_44 : decode cX8_factor 44 = .ok (.putfield 200, 3) := by decide +kernel
theorem dX8_factor_47 : decode cX8_factor 47 = .ok (.aload_n 0, 1) := by decide +kernel
theorem dX8_factor_48 : decode cX8_factor 48 = .ok (.dup, 1) := by decide +kernel
theorem dX8_factor_49 : decode cX8_factor 49 = .ok (.getfield 170, 3) := by decide +kernel
theorem dX8_factor_52 : decode cX8_factor 52 = .ok (.iconst 1, 1) := by decide +kernel
theorem dX8_factor_53 : decode cX8_factor 53 = .ok (.iadd, 1) := by decide +kernel
theorem dX8_factor_54 : decode cX8_factor 54 = .ok (.putfield 170, 3) := by decide +kernel
theorem dX8_factor_57 : decode cX8_factor 57 = .ok (.goto 119, 3) := by decide +kernel
theorem dX8_factor_60 : decode cX8_factor 60 = .ok (.iload_n 1, 1) := by decide +kernel
theorem dX8_factor_61 : decode cX8_factor 61 = .ok (.bipush 123, 2) := by decide +kernel
theorem dX8_factor_63 : decode cX8_factor 63 = .ok (.if_icmp .ne 29, 3) := by decide +kernel
theorem dX8_factor_66 : decode cX8_factor 66 = .ok (.aload_n 0, 1) := by decide +kernel
theorem dX8_factor_67 : decode cX8_factor 67 = .ok (.aload_n 0, 1) := by decide +kernel
theorem dX8_factor_68 : decode cX8_factor 68 = .ok (.getfield 47, 3) := by decide +kernel
theorem dX8_factor_71 : decode cX8_factor 71 = .ok (.aload_n 0, 1) := by decide +kernel
theorem dX8_factor_72 : decode cX8_factor 72 = .ok (.getfield 200, 3) := by decide +kernel
theorem dX8_factor_75 : decode cX8_factor 75 = .ok (.aaload, 1) := by decide +kernel
theorem dX8_factor_76 : decode cX8_factor 76 = .ok (.invokevirtual 203, 3) := by decide +kernel
theorem dX8_factor_79 : decode cX8_factor 79 = .ok (.aload_n 0, 1) := by decide +kernel
theorem dX8_factor_80 : decode cX8_factor 80 = .ok (.dup, 1) := by decide +kernel
theorem dX8_factor_81 : decode cX8_factor 81 = .ok (.getfield 200, 3) := by decide +kernel
theorem dX8_factor_84 : decode cX8_factor 84 = .ok (.iconst 1, 1) := by decide +kernel
theorem dX8_factor_85 : decode cX8_factor 85 = .ok (.iadd, 1) := by decide +kernel
theorem dX8_factor_86 : decode cX8_factor 86 = .ok (.putfield 200, 3) := by decide +kernel
theorem dX8_factor_89 : decode cX8_factor 89 = .ok (.goto 87, 3) := by decide +kernel
theorem dX8_factor_92 : decode cX8_factor 92 = .ok (.iload_n 1, 1) := by decide +kernel
theorem dX8_factor_93 : decode cX8_factor 93 = .ok (.bipush 40, 2) := by decide +kernel
theorem dX8_factor_95 : decode cX8_factor 95 = .ok (.if_icmp .ne 62, 3) := by decide +kernel
theorem dX8_factor_98 : decode cX8_factor 98 = .ok (.aload_n 0, 1) := by decide +kernel
theorem dX8_factor_99 : decode cX8_factor 99 = .ok (.getfield 206, 3) := by decide +kernel
theorem dX8_factor_102 : decode cX8_factor 102 = .ok (.bipush 8, 2) := by decide +kernel
theorem dX8_factor_104 : decode cX8_factor 104 = .ok (.if_icmp .ge 53, 3) := by decide +kernel
theorem dX8_factor_107 : decode cX8_factor 107 = .ok (.aload_n 0, 1) := by decide +kernel
theorem dX8_factor_108 : decode cX8_factor 108 = .ok (.dup, 1) := by decide +kernel
theorem dX8_factor_109 : decode cX8_factor 109 = .ok (.getfield 206, 3) := by decide +kernel
theorem dX8_factor_112 : decode cX8_factor 112 = .ok (.iconst 1, 1) := by decide +kernel
theorem dX8_factor_113 : decode cX8_factor 113 = .ok (.iadd, 1) := by decide +kernel
theorem dX8_factor_114 : decode cX8_factor 114 = .ok (.putfield 206, 3) := by decide +kernel
theorem dX8_factor_117 : decode cX8_factor 117 = .ok (.aload_n 0, 1) := by decide +kernel
theorem dX8_factor_118 : decode cX8_factor 118 = .ok (.dup, 1) := by decide +kernel
theorem dX8_factor_119 : decode cX8_factor 119 = .ok (.getfield 170, 3) := by decide +kernel
theorem dX8_factor_122 : decode cX8_factor 122 = .ok (.iconst 1, 1) := by decide +kernel
theorem dX8_factor_123 : decode cX8_factor 123 = .ok (.iadd, 1) := by decide +kernel
theorem dX8_factor_124 : decode cX8_factor 124 = .ok (.putfield 170, 3) := by decide +kernel
theorem dX8_factor_127 : decode cX8_factor 127 = .ok (.aload_n 0, 1) := by decide +kernel
theorem dX8_factor_128 : decode cX8_factor 128 = .ok (.invokevirtual 209, 3) := by decide +kernel
theorem dX8_factor_131 : decode cX8_factor 131 = .ok (.aload_n 0, 1) := by decide +kernel
theorem dX8_factor_132 : decode cX8_factor 132 = .ok (.getfield 164, 3) := by decide +kernel
theorem dX8_factor_135 : decode cX8_factor 135 = .ok (.ifCond .ne 9, 3) := by decide +kernel
theorem dX8_factor_138 : decode cX8_factor 138 = .ok (.aload_n 0, 1) := by decide +kernel
theorem dX8_factor_139 : decode cX8_factor 139 = .ok (.bipush 41, 2) := by decide +kernel
theorem dX8_factor_141 : decode cX8_factor 141 = .ok (.invokevirtual 192, 3) := by decide +kernel
theorem dX8_factor_144 : decode cX8_factor 144 = .ok (.aload_n 0, 1) := by decide +kernel
theorem dX8_factor_145 : decode cX8_factor 145 = .ok (.dup, 1) := by decide +kernel
theorem dX8_factor_146 : decode cX8_factor 146 = .ok (.getfield 206, 3) := by decide +kernel
theorem dX8_factor_149 : decode cX8_factor 149 = .ok (.iconst 1, 1) := by decide +kernel
theorem dX8_factor_150 : decode cX8_factor 150 = .ok (.isub, 1) := by decide +kernel
theorem dX8_factor_151 : decode cX8_factor 151 = .ok (.putfield 206, 3) := by decide +kernel
theorem dX8_factor_154 : decode cX8_factor 154 = .ok (.goto 22, 3) := by decide +kernel
theorem dX8_factor_157 : decode cX8_factor 157 = .ok (.aload_n 0, 1) := by decide +kernel
theorem dX8_factor_158 : decode cX8_factor 158 = .ok (.iload_n 1, 1) := by decide +kernel
theorem dX8_factor_159 : decode cX8_factor 159 = .ok (.bipush 40, 2) := by decide +kernel
theorem dX8_factor_161 : decode cX8_factor 161 = .ok (.if_icmp .ne 7, 3) := by decide +kernel
theorem dX8_factor_164 : decode cX8_factor 164 = .ok (.iconst 2, 1) := by decide +kernel
theorem dX8_factor_165 : decode cX8_factor 165 = .ok (.goto 4, 3) := by decide +kernel
theorem dX8_factor_168 : decode cX8_factor 168 = .ok (.iconst 1, 1) := by decide +kernel
theorem dX8_factor_169 : decode cX8_factor 169 = .ok (.aload_n 0, 1) := by decide +kernel
theorem dX8_factor_170 : decode cX8_factor 170 = .ok (.getfield 170, 3) := by decide +kernel
theorem dX8_factor_173 : decode cX8_factor 173 = .ok (.invokevirtual 179, 3) := by decide +kernel
theorem dX8_factor_176 : decode cX8_factor 176 = .ok (.return_, 1) := by decide +kernel
set_option maxRecDepth 20000 in
theorem ggX8_joinsHighest_X8_joins : GoodIn wsX8_joinsHighest wsX8_joins := goodIn_r _ [7] (by decide +kernel) (by decide +kernel)
set_option maxRecDepth 20000 in
theorem gX8_joinsHighest_X8_joins : GoodIn wsX8_joinsHighest (va_wsS RX8 87 yX8_joins wsX8_joins) := goodIn_app (goodIn_of _ (by decide +kernel)) ggX8_joinsHighest_X8_joins
theorem dX8_joinsHighest_0 : decode cX8_joinsHighest 0 = .ok (.aload_n 0, 1) := by decide +kernel
theorem dX8_joinsHighest_1 : decode cX8_joinsHighest 1 = .ok (.getfield 164, 3) := by decide +kernel
theorem dX8_joinsHighest_4 : decode cX8_joinsHighest 4 = .ok (.ifCond .ne 48, 3) := by decide +kernel
theorem dX8_joinsHighest_7 : decode cX8_joinsHighest 7 = .ok (.aload_n 0, 1) := by decide +kernel
theorem dX8_joinsHighest_8 : decode cX8_joinsHighest 8 = .ok (.dup, 1) := by decide +kernel
theorem dX8_joinsHighest_9 : decode cX8_joinsHighest 9 = .ok (.getfield 200, 3) := by decide +kernel
theorem dX8_joinsHighest_12 : decode cX8_joinsHighest 12 = .ok (.iconst 1, 1) := by decide +kernel
theorem dX8_joinsHighest_13 : decode cX8_joinsHighest 13 = .ok (.isub, 1) := by decide +kernel
theorem dX8_joinsHighest_14 : decode cX8_joinsHighest 14 = .ok (.putfield 200, 3) := by decide +kernel
theorem dX8_joinsHighest_17 : decode cX8_joinsHighest 17 = .ok (.aload_n 0, 1) := by decide +kernel
theorem dX8_joinsHighest_18 : decode cX8_joinsHighest 18 = .ok (.getfield 47, 3) := by decide +kernel
theorem dX8_joinsHighest_21 : decode cX8_joinsHighest 21 = .ok (.aload_n 0, 1) := by decide +kernel
theorem dX8_joinsHighest_22 : decode cX8_joinsHighest 22 = .ok (.getfield 200, 3) := by decide +kernel
theorem dX8_joinsHighest_25 : decode cX8_joinsHighest 25 = .ok (.iconst 1, 1) := by decide +kernel
theorem dX8_joinsHighest_26 : decode cX8_joinsHighest 26 = .ok (.isub, 1) := by decide +kernel
theorem dX8_joinsHighest_27 : decode cX8_joinsHighest 27 = .ok (.aaload, 1) := by decide +kernel
theorem dX8_joinsHighest_28 : decode cX8_joinsHighest 28 = .ok (.aload_n 0, 1) := by decide +kernel
theorem dX8_joinsHighest_29 : decode cX8_joinsHighest 29 = .ok (.getfield 47, 3) := by decide +kernel
theorem dX8_joinsHighest_32 : decode cX8_joinsHighest 32 = .ok (.aload_n 0, 1) := by decide +kernel
theorem dX8_joinsHighest_33 : decode cX8_joinsHighest 33 = .ok (.getfield 200, 3) := by decide +kernel
theorem dX8_joinsHighest_36 : decode cX8_joinsHighest 36 = .ok (.aaload, 1) := by decide +kernel
theorem dX8_joinsHighest_37 : decode cX8_joinsHighest 37 = .ok (.iload_n 1, 1) := by decide +kernel
theorem dX8_joinsHighest_38 : decode cX8_joinsHighest 38 = .ok (.aload_n 0, 1) := by decide +kernel
theorem dX8_joinsHighest_39 : decode cX8_joinsHighest 39 = .ok (.getfield 47, 3) := by decide +kernel
theorem dX8_joinsHighest_42 : decode cX8_joinsHighest 42 = .ok (.aload_n 0, 1) := by decide +kernel
theorem dX8_joinsHighest_43 : decode cX8_joinsHighest 43 = .ok (.getfield 200, 3) := by decide +kernel
theorem dX8_joinsHighest_46 : decode cX8_joinsHighest 46 = .ok (.iconst 1, 1) := by decide +kernel
theorem dX8_joinsHighest_47 : decode cX8_joinsHighest 47 = .ok (.isub, 1) := by decide +kernel
theorem dX8_joinsHighest_48 : decode cX8_joinsHighest 48 = .ok (.aaload, 1) := by decide +kernel
theorem dX8_joinsHighest_49 : decode cX8_joinsHighest 49 = .ok (.invokestatic 87, 3) := by decide +kernel
theorem dX8_joinsHighest_52 : decode cX8_joinsHighest 52 = .ok (.return_, 1) := by decide +kernel
set_option maxRecDepth 20000 in
theorem ggX8_part_X8_factor : GoodIn wsX8_part wsX8_factor := goodIn_r _ [26, 27, 22, 21, 2, 28, 1, 7, 8, 9, 6, 10, 11, 12, 13, 14, 15, 16, 29, 30, 31, 32, 33, 34, 35, 36, 37, 38, 23, 24, 25, 39, 40, 41, 42, 43, 44, 45, 46, 47, 48, 49, 50, 51, 52, 53, 54, 55, 56, 57, 58, 59, 60, 61, 62, 63, 64, 65, 0, 3, 4, 5, 17, 18, 19, 20, 66, 67, 68, 69, 70, 71, 72, 73, 74, 75, 76, 77, 78, 79, 80, 81, 82, 83, 84, 85, 86, 87, 88] (by decide +kernel) (by decide +kernel)
set_option maxRecDepth 20000 in
theorem gX8_part_X8_factor : GoodIn wsX8_part (wsV RX8 212 RX8 yX8_factor wsX8_factor) := goodIn_app (goodIn_of _ (by decide +kernel)) ggX8_part_X8_factor
set_option maxRecDepth 20000 in
theorem ggX8_part_X8_signBehindBlanks : GoodIn wsX8_part wsX8_signBehindBlanks := goodIn_r _ [10, 2, 11, 12, 13, 6, 14, 15, 16, 70, 71, 72, 73, 74, 75, 76, 77, 78, 79, 80, 81, 82, 83, 84, 85, 86, 87, 88] (by decide +kernel) (by decide +kernel)
set_option maxRecDepth 20000 in
theorem gX8_part_X8_signBehindBlanks : GoodIn wsX8_part (wsV RX8 176 RX8 yX8_signBehindBlanks wsX8_signBehindBlanks) := goodIn_app (goodIn_of _ (by decide +kernel)) ggX8_part_X8_signBehindBlanks
set_option maxRecDepth 20000 in
theorem ggX8_part_X8_joinsHighest : GoodIn wsX8_part wsX8_joinsHighest := goodIn_r _ [20, 1, 21, 22, 23, 24, 6, 25, 70, 71, 72, 73, 74, 75, 76, 77, 78, 79, 80, 81, 82, 83, 84, 85, 86, 87, 88] (by decide +kernel) (by decide +kernel)
set_option maxRecDepth 20000 in
theorem gX8_part_X8_joinsHighest : GoodIn wsX8_part (wsV RX8 215 RX8 yX8_joinsHighest wsX8_joinsHighest) := goodIn_app (goodIn_of _ (by decide +kernel)) ggX8_part_X8_joinsHighest
theorem dX8_part_0 : decode cX8_part 0 = .ok (.aload_n 0, 1) := by decide +kernel
theorem dX8_part_1 : decode cX8_part 1 = .ok (.invokevirtual 212, 3) := by decide +kernel
theorem dX8_part_4 : decode cX8_part 4 = .ok (.aload_n 0, 1) := by decide +kernel
theorem dX8_part_5 : decode cX8_part 5 = .ok (.getfield 164, 3) := by decide +kernel
theorem dX8_part_8 : decode cX8_part 8 = .ok (.ifCond .ne 34, 3) := by decide +kernel
theorem dX8_part_11 : decode cX8_part 11 = .ok (.aload_n 0, 1) := by decide +kernel
theorem dX8_part_12 : decode cX8_part 12 = .ok (.invokevirtual 176, 3) := by decide +kernel
theorem dX8_part_15 : decode cX8_part 15 = .ok (.bipush 38, 2) := by decide +kernel
theorem dX8_part_17 : decode cX8_part 17 = .ok (.if_icmp .ne 25, 3) := by decide +kernel
theorem dX8_part_20 : decode cX8_part 20 = .ok (.aload_n 0, 1) := by decide +kernel
theorem dX8_part_21 : decode cX8_part 21 = .ok (.dup, 1) := by decide +kernel
theorem dX8_part_22 : decode cX8_part 22 = .ok (.getfield 170, 3) := by decide +kernel
theorem dX8_part_25 : decode cX8_part 25 = .ok (.iconst 1, 1) := by decide +kernel
theorem dX8_part_26 : decode cX8_part 26 = .ok (.iadd, 1) := by decide +kernel
theorem dX8_part_27 : decode cX8_part 27 = .ok (.putfield 170, 3) := by decide +kernel
theorem dX8_part_30 : decode cX8_part 30 = .ok (.aload_n 0, 1) := by decide +kernel
theorem dX8_part_31 : decode cX8_part 31 = .ok (.invokevirtual 212, 3) := by decide +kernel
theorem dX8_part_34 : decode cX8_part 34 = .ok (.aload_n 0, 1) := by decide +kernel
theorem dX8_part_35 : decode cX8_part 35 = .ok (.iconst 1, 1) := by decide +kernel
theorem dX8_part_36 : decode cX8_part 36 = .ok (.invokevirtual 215, 3) := by decide +kernel
theorem dX8_part_39 : decode cX8_part 39 = .ok (.goto (-35), 3) := by decide +kernel
theorem dX8_part_42 : decode cX8_part 42 = .ok (.return_, 1) := by decide +kernel
set_option maxRecDepth 20000 in
theorem ggX8_sums_X8_part : GoodIn wsX8_sums wsX8_part := goodIn_r _ [66, 1, 2, 67, 68, 69, 6, 7, 8, 9, 10, 11, 12, 13, 14, 15, 16, 17, 18, 19, 20, 21, 22, 23, 24, 25, 26, 27, 28, 29, 30, 31, 32, 33, 34, 35, 36, 37, 38, 39, 40, 41, 42, 43, 44, 45, 46, 47, 48, 49, 50, 51, 52, 53, 54, 55, 56, 57, 58, 59, 60, 61, 62, 63, 64, 65, 0, 3, 4, 5, 70, 71, 72, 73, 74, 75, 76, 77, 78, 79, 80, 81, 82, 83, 84, 85, 86, 87, 88] (by decide +kernel) (by decide +kernel)
set_option maxRecDepth 20000 in
theorem gX8_sums_X8_part : GoodIn wsX8_sums (wsV RX8 218 RX8 yX8_part wsX8_part) := goodIn_app (goodIn_of _ (by decide +kernel)) ggX8_sums_X8_part
set_option maxRecDepth 20000 in
theorem ggX8_sums_X8_signBehindBlanks : GoodIn wsX8_sums wsX8_signBehindBlanks := goodIn_r _ [10, 2, 11, 12, 13, 6, 14, 15, 16, 70, 71, 72, 73, 74, 75, 76, 77, 78, 79, 80, 81, 82, 83, 84, 85, 86, 87, 88] (by decide +kernel) (by decide +kernel)
set_option maxRecDepth 20000 in
theorem gX8_sums_X8_signBehindBlanks : GoodIn wsX8_sums (wsV RX8 176 RX8 yX8_signBehindBlanks wsX8_signBehindBlanks) := goodIn_app (goodIn_of _ (by decide +kernel)) ggX8_sums_X8_signBehindBlanks
set_option maxRecDepth 20000 in
theorem ggX8_sums_X8_joinsHighest : GoodIn wsX8_sums wsX8_joinsHighest := goodIn_r _ [20, 1, 21, 22, 23, 24, 6, 25, 70, 71, 72, 73, 74, 75, 76, 77, 78, 79, 80, 81, 82, 83, 84, 85, 86, 87, 88] (by decide +kernel) (by decide +kernel)
set_option maxRecDepth 20000 in
theorem gX8_sums_X8_joinsHighest : GoodIn wsX8_sums (wsV RX8 215 RX8 yX8_joinsHighest wsX8_joinsHighest) := goodIn_app (goodIn_of _ (by decide +kernel)) ggX8_sums_X8_joinsHighest
theorem dX8_sums_0 : decode cX8_sums 0 = .ok (.aload_n 0, 1) := by decide +kernel
theorem dX8_sums_1 : decode cX8_sums 1 = .ok (.invokevirtual 218, 3) := by decide +kernel
theorem dX8_sums_4 : decode cX8_sums 4 = .ok (.aload_n 0, 1) := by decide +kernel
theorem dX8_sums_5 : decode cX8_sums 5 = .ok (.invokevirtual 176, 3) := by decide +kernel
theorem dX8_sums_8 : decode cX8_sums 8 = .ok (.istore_n 1, 1) := by decide +kernel
theorem dX8_sums_9 : decode cX8_sums 9 = .ok (.aload_n 0, 1) := by decide +kernel
theorem dX8_sums_10 : decode cX8_sums 10 = .ok (.getfield 164, 3) := by decide +kernel
theorem dX8_sums_13 : decode cX8_sums 13 = .ok (.ifCond .ne 68, 3) := by decide +kernel
theorem dX8_sums_16 : decode cX8_sums 16 = .ok (.iload_n 1, 1) := by decide +kernel
theorem dX8_sums_17 : decode cX8_sums 17 = .ok (.bipush 124, 2) := by decide +kernel
theorem dX8_sums_19 : decode cX8_sums 19 = .ok (.if_icmp .eq 15, 3) := by decide +kernel
theorem dX8_sums_22 : decode cX8_sums 22 = .ok (.iload_n 1, 1) := by decide +kernel
theorem dX8_sums_23 : decode cX8_sums 23 = .ok (.bipush 45, 2) := by decide +kernel
theorem dX8_sums_25 : decode cX8_sums 25 = .ok (.if_icmp .eq 9, 3) := by decide +kernel
theorem dX8_sums_28 : decode cX8_sums 28 = .ok (.iload_n 1, 1) := by decide +kernel
theorem dX8_sums_29 : decode cX8_sums 29 = .ok (.bipush 94, 2) := by decide +kernel
theorem dX8_sums_31 : decode cX8_sums 31 = .ok (.if_icmp .ne 50, 3) := by decide +kernel
theorem dX8_sums_34 : decode cX8_sums 34 = .ok (.aload_n 0, 1) := by decide +kernel
theorem dX8_sums_35 : decode cX8_sums 35 = .ok (.dup, 1) := by decide +kernel
theorem dX8_sums_36 : decode cX8_sums 36 = .ok (.getfield 170, 3) := by decide +kernel
theorem dX8_sums_39 : decode cX8_sums 39 = .ok (.iconst 1, 1) := by decide +kernel
theorem dX8_sums_40 : decode cX8_sums 40 = .ok (.iadd, 1) := by decide +kernel
theorem dX8_sums_41 : decode cX8_sums 41 = .ok (.putfield 170, 3) := by decide +kernel
theorem dX8_sums_44 : decode cX8_sums 44 = .ok (.aload_n 0, 1) := by decide +kernel
theorem dX8_sums_45 : decode cX8_sums 45 = .ok (.invokevirtual 218, 3) := by decide +kernel
theorem dX8_sums_48 : decode cX8_sums 48 = .ok (.aload_n 0, 1) := by decide +kernel
theorem dX8_sums_49 : decode cX8_sums 49 = .ok (.iload_n 1, 1) := by decide +kernel
theorem dX8_sums_50 : decode cX8_sums 50 = .ok (.bipush 124, 2) := by decide +kernel
theorem dX8_sums_52 : decode cX8_sums 52 = .ok (.if_icmp .ne 7, 3) := by decide +kernel
theorem dX8_sums_55 : decode cX8_sums 55 = .ok (.iconst 0, 1) := by decide +kernel
theorem dX8_sums_56 : decode cX8_sums 56 = .ok (.goto 14, 3) := by decide +kernel
theorem dX8_sums_59 : decode cX8_sums 59 = .ok (.iload_n 1, 1) := by decide +kernel
theorem dX8_sums_60 : decode cX8_sums 60 = .ok (.bipush 45, 2) := by decide +kernel
theorem dX8_sums_62 : decode cX8_sums 62 = .ok (.if_icmp .ne 7, 3) := by decide +kernel
theorem dX8_sums_65 : decode cX8_sums 65 = .ok (.iconst 2, 1) := by decide +kernel
theorem dX8_sums_66 : decode cX8_sums 66 = .ok (.goto 4, 3) := by decide +kernel
theorem dX8_sums_69 : decode cX8_sums 69 = .ok (.iconst 3, 1) := by decide +kernel
theorem dX8_sums_70 : decode cX8_sums 70 = .ok (.invokevirtual 215, 3) := by decide +kernel
theorem dX8_sums_73 : decode cX8_sums 73 = .ok (.aload_n 0, 1) := by decide +kernel
theorem dX8_sums_74 : decode cX8_sums 74 = .ok (.invokevirtual 176, 3) := by decide +kernel
theorem dX8_sums_77 : decode cX8_sums 77 = .ok (.istore_n 1, 1) := by decide +kernel
theorem dX8_sums_78 : decode cX8_sums 78 = .ok (.goto (-69), 3) := by decide +kernel
theorem dX8_sums_81 : decode cX8_sums 81 = .ok (.return_, 1) := by decide +kernel
set_option maxRecDepth 20000 in
theorem ggX8_reads_X8_signBehindBlanks : GoodIn wsX8_reads wsX8_signBehindBlanks := goodIn_r _ [13, 3, 14, 15, 16, 12, 17, 5, 18, 74, 75, 76, 77, 78, 79, 80, 81, 82, 83, 84, 85, 86, 87, 88, 89, 90, 91, 92] (by decide +kernel) (by decide +kernel)
set_option maxRecDepth 20000 in
theorem gX8_reads_X8_signBehindBlanks : GoodIn wsX8_reads (wsV RX8 176 RX8 yX8_signBehindBlanks wsX8_signBehindBlanks) := goodIn_app (goodIn_of _ (by decide +kernel)) ggX8_reads_X8_signBehindBlanks
set_option maxRecDepth 20000 in
theorem ggX8_reads_X8_sign : GoodIn wsX8_reads wsX8_sign := goodIn_r _ [17, 3, 5, 18, 74, 75, 76, 77, 78, 79, 80, 81, 82, 83, 84, 85, 86, 87, 88, 89, 90, 91, 92] (by decide +kernel) (by decide +kernel)
set_option maxRecDepth 20000 in
theorem gX8_reads_X8_sign : GoodIn wsX8_reads (wsV RX8 173 RX8 yX8_sign wsX8_sign) := goodIn_app (goodIn_of _ (by decide +kernel)) ggX8_reads_X8_sign
set_option maxRecDepth 20000 in
theorem ggX8_reads_X8_isSet : GoodIn wsX8_reads wsX8_isSet := goodIn_r _ [21, 22, 23, 12, 24] (by decide +kernel) (by decide +kernel)
set_option maxRecDepth 20000 in
theorem gX8_reads_X8_isSet : GoodIn wsX8_reads (va_wsS RX8 65 yX8_isSet wsX8_isSet) := goodIn_app (goodIn_of _ (by decide +kernel)) ggX8_reads_X8_isSet
set_option maxRecDepth 20000 in
theorem ggX8_reads_X8_fails : GoodIn wsX8_reads wsX8_fails := goodIn_r _ [28, 1, 2, 74, 75, 76, 77, 78, 79, 80, 81, 82, 83, 84, 85, 86, 87, 88, 89, 90, 91, 92] (by decide +kernel) (by decide +kernel)
set_option maxRecDepth 20000 in
theorem gX8_reads_X8_fails : GoodIn wsX8_reads (wsV RX8 179 RX8 yX8_fails wsX8_fails) := goodIn_app (goodIn_of _ (by decide +kernel)) ggX8_reads_X8_fails
set_option maxRecDepth 20000 in
theorem ggX8_reads_X8_expects : GoodIn wsX8_reads wsX8_expects := goodIn_r _ [32, 3, 9, 10, 11, 12, 13, 14, 15, 16, 17, 5, 18, 25, 26, 27, 28, 1, 2, 74, 75, 76, 77, 78, 79, 80, 81, 82, 83, 84, 85, 86, 87, 88, 89, 90, 91, 92] (by decide +kernel) (by decide +kernel)
set_option maxRecDepth 20000 in
theorem gX8_reads_X8_expects : GoodIn wsX8_reads (wsV RX8 192 RX8 yX8_expects wsX8_expects) := goodIn_app (goodIn_of _ (by decide +kernel)) ggX8_reads_X8_expects
set_option maxRecDepth 20000 in
theorem ggX8_reads_X8_sums : GoodIn wsX8_reads wsX8_sums := goodIn_r _ [36, 1, 3, 37, 38, 39, 12, 9, 10, 11, 13, 14, 15, 16, 17, 5, 18, 40, 41, 42, 43, 6, 7, 44, 45, 46, 47, 8, 4, 22, 23, 24, 48, 49, 50, 51, 52, 53, 54, 29, 30, 31, 32, 25, 26, 27, 28, 2, 55, 56, 57, 58, 59, 60, 61, 62, 63, 64, 65, 66, 67, 68, 69, 33, 34, 35, 70, 71, 72, 73, 74, 75, 76, 77, 78, 79, 80, 81, 82, 83, 84, 85, 86, 87, 88, 89, 90, 91, 92] (by decide +kernel) (by decide +kernel)
set_option maxRecDepth 20000 in
theorem gX8_reads_X8_sums : GoodIn wsX8_reads (wsV RX8 209 RX8 yX8_sums wsX8_sums) := goodIn_app (goodIn_of _ (by decide +kernel)) ggX8_reads_X8_sums
set_option maxRecDepth 20000 in
theorem ggX8_reads_X8_copies : GoodIn wsX8_reads wsX8_copies := goodIn_r _ [50] (by decide +kernel) (by decide +kernel)
set_option maxRecDepth 20000 in
theorem gX8_reads_X8_copies : GoodIn wsX8_reads (va_wsS RX8 95 yX8_copies wsX8_copies) := goodIn_app (goodIn_of _ (by decide +kernel)) ggX8_reads_X8_copies
theorem dX8_reads_0 : decode cX8_reads 0 = .ok (.aload_n 0, 1) := by decide +kernel
theorem dX8_reads_1 : decode cX8_reads 1 = .ok (.iconst 0, 1) := by decide +kernel
theorem dX8_reads_2 : decode cX8_reads 2 = .ok (.putfield 164, 3) := by decide +kernel
theorem dX8_reads_5 : decode cX8_reads 5 = .ok (.aload_n 0, 1) := by decide +kernel
theorem dX8_reads_6 : decode cX8_reads 6 = .ok (.iconst (-1), 1) := by decide +kernel
theorem dX8_reads_7 : decode cX8_reads 7 = .ok (.putfield 167, 3) := by decide +kernel
theorem dX8_reads_10 : decode cX8_reads 10 = .ok (.aload_n 0, 1) := by decide +kernel
theorem dX8_reads_11 : decode cX8_reads 11 = .ok (.iconst 0, 1) := by decide +kernel
theorem dX8_reads_12 : decode cX8_reads 12 = .ok (.putfield 170, 3) := by decide +kernel
theorem dX8_reads_15 : decode cX8_reads 15 = .ok (.aload_n 0, 1) := by decide +kernel
theorem dX8_reads_16 : decode cX8_reads 16 = .ok (.iconst 0, 1) := by decide +kernel
theorem dX8_reads_17 : decode cX8_reads 17 = .ok (.putfield 206, 3) := by decide +kernel
theorem dX8_reads_20 : decode cX8_reads 20 = .ok (.iconst 0, 1) := by decide +kernel
theorem dX8_reads_21 : decode cX8_reads 21 = .ok (.istore_n 2, 1) := by decide +kernel
theorem dX8_reads_22 : decode cX8_reads 22 = .ok (.aload_n 0, 1) := by decide +kernel
theorem dX8_reads_23 : decode cX8_reads 23 = .ok (.getfield 164, 3) := by decide +kernel
theorem dX8_reads_26 : decode cX8_reads 26 = .ok (.ifCond .ne 125, 3) := by decide +kernel
theorem dX8_reads_29 : decode cX8_reads 29 = .ok (.aload_n 0, 1) := by decide +kernel
theorem dX8_reads_30 : decode cX8_reads 30 = .ok (.invokevirtual 176, 3) := by decide +kernel
theorem dX8_reads_33 : decode cX8_reads 33 = .ok (.ifCond .ne 14, 3) := by decide +kernel
theorem dX8_reads_36 : decode cX8_reads 36 = .ok (.aload_n 0, 1) := by decide +kernel
theorem dX8_reads_37 : decode cX8_reads 37 = .ok (.getfield 170, 3) := by decide +kernel
theorem dX8_reads_40 : decode cX8_reads 40 = .ok (.aload_n 0, 1) := by decide +kernel
theorem dX8_reads_41 : decode cX8_reads 41 = .ok (.getfield 141, 3) := by decide +kernel
theorem dX8_reads_44 : decode cX8_reads 44 = .ok (.if_icmp .ge 107, 3) := by decide +kernel
theorem dX8_reads_47 : decode cX8_reads 47 = .ok (.aload_n 0, 1) := by decide +kernel
theorem dX8_reads_48 : decode cX8_reads 48 = .ok (.invokevirtual 173, 3) := by decide +kernel
theorem dX8_reads_51 : decode cX8_reads 51 = .ok (.bipush 97, 2) := by decide +kernel
theorem dX8_reads_53 : decode cX8_reads 53 = .ok (.isub, 1) := by decide +kernel
theorem dX8_reads_54 : decode cX8_reads 54 = .ok (.istore_n 3, 1) := by decide +kernel
theorem dX8_reads_55 : decode cX8_reads 55 = .ok (.aload_n 0, 1) := by decide +kernel
theorem dX8_reads_56 : decode cX8_reads 56 = .ok (.iconst 0, 1) := by decide +kernel
theorem dX8_reads_57 : decode cX8_reads 57 = .ok (.putfield 200, 3) := by decide +kernel
theorem dX8_reads_60 : decode cX8_reads 60 = .ok (.iload_n 3, 1) := by decide +kernel
theorem dX8_reads_61 : decode cX8_reads 61 = .ok (.invokestatic 65, 3) := by decide +kernel
theorem dX8_reads_64 : decode cX8_reads 64 = .ok (.ifCond .ne 15, 3) := by decide +kernel
theorem dX8_reads_67 : decode cX8_reads 67 = .ok (.aload_n 0, 1) := by decide +kernel
theorem dX8_reads_68 : decode cX8_reads 68 = .ok (.iconst 1, 1) := by decide +kernel
theorem dX8_reads_69 : decode cX8_reads 69 = .ok (.aload_n 0, 1) := by decide +kernel
theorem dX8_reads_70 : decode cX8_reads 70 = .ok (.getfield 170, 3) := by decide +kernel
theorem dX8_reads_73 : decode cX8_reads 73 = .ok (.invokevirtual 179, 3) := by decide +kernel
theorem dX8_reads_76 : decode cX8_reads 76 = .ok (.goto 19, 3) := by decide +kernel
theorem dX8_reads_79 : decode cX8_reads 79 = .ok (.aload_n 0, 1) := by decide +kernel
theorem dX8_reads_80 : decode cX8_reads 80 = .ok (.dup, 1) := by decide +kernel
theorem dX8_reads_81 : decode cX8_reads 81 = .ok (.getfield 170, 3) := by decide +kernel
theorem dX8_reads_84 : decode cX8_reads 84 = .ok (.iconst 1, 1) := by decide +kernel
theorem dX8_reads_85 : decode cX8_reads 85 = .ok (.iadd, 1) := by decide +kernel
theorem dX8_reads_86 : decode cX8_reads 86 = .ok (.putfield 170, 3) := by decide +kernel
theorem dX8_reads_89 : decode cX8_reads 89 = .ok (.aload_n 0, 1) := by decide +kernel
theorem dX8_reads_90 : decode cX8_reads 90 = .ok (.bipush 61, 2) := by decide +kernel
theorem dX8_reads_92 : decode cX8_reads 92 = .ok (.invokevirtual 192, 3) := by decide +kernel
theorem dX8_reads_95 : decode cX8_reads 95 = .ok (.aload_n 0, 1) := by decide +kernel
theorem dX8_reads_96 : decode cX8_reads 96 = .ok (.getfield 164, 3) := by decide +kernel
theorem dX8_reads_99 : decode cX8_reads 99 = .ok (.ifCond .ne 7, 3) := by decide +kernel
theorem dX8_reads_102 : decode cX8_reads 102 = .ok (.aload_n 0, 1) := by decide +kernel
theorem dX8_reads_103 : decode cX8_reads 103 = .ok (.invokevirtual 209, 3) := by decide +kernel
theorem dX8_reads_106 : decode cX8_reads 106 = .ok (.aload_n 0, 1) := by decide +kernel
theorem dX8_reads_107 : decode cX8_reads 107 = .ok (.getfield 164, 3) := by decide +kernel
theorem dX8_reads_110 : decode cX8_reads 110 = .ok (.ifCond .ne 9, 3) := by decide +kernel
theorem dX8_reads_113 : decode cX8_reads 113 = .ok (.aload_n 0, 1) := by decide +kernel
theorem dX8_reads_114 : decode cX8_reads 114 = .ok (.bipush 59, 2) := by decide +kernel
theorem dX8_reads_116 : decode cX8_reads 116 = .ok (.invokevirtual 192, 3) := by decide +kernel
theorem dX8_reads_119 : decode cX8_reads 119 = .ok (.aload_n 0, 1) := by decide +kernel
theorem dX8_reads_120 : decode cX8_reads 120 = .ok (.getfield 164, 3) := by decide +kernel
theorem dX8_reads_123 : decode cX8_reads 123 = .ok (.ifCond .ne 22, 3) := by decide +kernel
theorem dX8_reads_126 : decode cX8_reads 126 = .ok (.iload_n 1, 1) := by decide +kernel
theorem dX8_reads_127 : decode cX8_reads 127 = .ok (.ifCond .eq 18, 3) := by decide +kernel
theorem dX8_reads_130 : decode cX8_reads 130 = .ok (.aload_n 0, 1) := by decide +kernel
theorem dX8_reads_131 : decode cX8_reads 131 = .ok (.getfield 47, 3) := by decide +kernel
theorem dX8_reads_134 : decode cX8_reads 134 = .ok (.iconst 0, 1) := by decide +kernel
theorem dX8_reads_135 : decode cX8_reads 135 = .ok (.aaload, 1) := by decide +kernel
theorem dX8_reads_136 : decode cX8_reads 136 = .ok (.aload_n 0, 1) := by decide +kernel
theorem dX8_reads_137 : decode cX8_reads 137 = .ok (.getfield 27, 3) := by decide +kernel
theorem dX8_reads_140 : decode cX8_reads 140 = .ok (.iload_n 3, 1) := by decide +kernel
theorem dX8_reads_141 : decode cX8_reads 141 = .ok (.aaload, 1) := by decide +kernel
theorem dX8_reads_142 : decode cX8_reads 142 = .ok (.invokestatic 95, 3) := by decide +kernel
theorem dX8_reads_145 : decode cX8_reads 145 = .ok (.iinc 2 1, 3) := by decide +kernel
theorem dX8_reads_148 : decode cX8_reads 148 = .ok (.goto (-126), 3) := by decide +kernel
theorem dX8_reads_151 : decode cX8_reads 151 = .ok (.iload_n 2, 1) := by decide +kernel
theorem dX8_reads_152 : decode cX8_reads 152 = .ok (.ireturn, 1) := by decide +kernel
set_option maxRecDepth 20000 in
theorem ggX8_errorKind_X8_reads : GoodIn wsX8_errorKind wsX8_reads := goodIn_r _ [7, 2, 8, 9, 10, 11, 12, 13, 14, 15, 16, 17, 6, 18, 19, 20, 21, 22, 23, 24, 25, 26, 27, 28, 29, 30, 31, 32, 33, 34, 35, 36, 37, 38, 39, 40, 41, 42, 43, 44, 45, 46, 47, 48, 49, 50, 51, 52, 53, 54, 55, 56, 57, 58, 59, 60, 61, 62, 63, 64, 65, 66, 67, 68, 69, 70, 71, 72, 73, 74, 75, 76, 77, 78, 79, 80, 81, 82, 83, 84, 85, 86, 87, 88, 89, 90, 91, 92, 93, 94, 95, 96, 97] (by decide +kernel) (by decide +kernel)
set_option maxRecDepth 20000 in
theorem gX8_errorKind_X8_reads : GoodIn wsX8_errorKind (wsV RX8 221 RX8 yX8_reads wsX8_reads) := goodIn_app (goodIn_of _ (by decide +kernel)) ggX8_errorKind_X8_reads
theorem dX8_errorKind_0 : decode cX8_errorKind 0 = .ok (.aload_n 0, 1) := by decide +kernel
theorem dX8_errorKind_1 : decode cX8_errorKind 1 = .ok (.iconst 0, 1) := by decide +kernel
theorem dX8_errorKind_2 : decode cX8_errorKind 2 = .ok (.putfield 3, 3) := by decide +kernel
theorem dX8_errorKind_5 : decode cX8_errorKind 5 = .ok (.aload_n 0, 1) := by decide +kernel
theorem dX8_errorKind_6 : decode cX8_errorKind 6 = .ok (.iconst 0, 1) := by decide +kernel
theorem dX8_errorKind_7 : decode cX8_errorKind 7 = .ok (.invokevirtual 221, 3) := by decide +kernel
theorem dX8_errorKind_10 : decode cX8_errorKind 10 = .ok (.istore_n 1, 1) := by decide +kernel
theorem dX8_errorKind_11 : decode cX8_errorKind 11 = .ok (.aload_n 0, 1) := by decide +kernel
theorem dX8_errorKind_12 : decode cX8_errorKind 12 = .ok (.getfield 164, 3) := by decide +kernel
theorem dX8_errorKind_15 : decode cX8_errorKind 15 = .ok (.ireturn, 1) := by decide +kernel
set_option maxRecDepth 20000 in
theorem ggX8_errorPlace_X8_reads : GoodIn wsX8_errorPlace wsX8_reads := goodIn_r _ [7, 8, 2, 9, 10, 11, 12, 13, 14, 15, 16, 17, 6, 18, 19, 20, 21, 22, 23, 24, 25, 26, 27, 28, 29, 30, 31, 32, 33, 34, 35, 36, 37, 38, 39, 40, 41, 42, 43, 44, 45, 46, 47, 48, 49, 50, 51, 52, 53, 54, 55, 56, 57, 58, 59, 60, 61, 62, 63, 64, 65, 66, 67, 68, 69, 70, 71, 72, 73, 74, 75, 76, 77, 78, 79, 80, 81, 82, 83, 84, 85, 86, 87, 88, 89, 90, 91, 92, 93, 94, 95, 96, 97] (by decide +kernel) (by decide +kernel)
set_option maxRecDepth 20000 in
theorem gX8_errorPlace_X8_reads : GoodIn wsX8_errorPlace (wsV RX8 221 RX8 yX8_reads wsX8_reads) := goodIn_app (goodIn_of _ (by decide +kernel)) ggX8_errorPlace_X8_reads
theorem dX8_errorPlace_0 : decode cX8_errorPlace 0 = .ok (.aload_n 0, 1) := by decide +kernel
theorem dX8_errorPlace_1 : decode cX8_errorPlace 1 = .ok (.iconst 0, 1) := by decide +kernel
theorem dX8_errorPlace_2 : decode cX8_errorPlace 2 = .ok (.putfield 3, 3) := by decide +kernel
theorem dX8_errorPlace_5 : decode cX8_errorPlace 5 = .ok (.aload_n 0, 1) := by decide +kernel
theorem dX8_errorPlace_6 : decode cX8_errorPlace 6 = .ok (.iconst 0, 1) := by decide +kernel
theorem dX8_errorPlace_7 : decode cX8_errorPlace 7 = .ok (.invokevirtual 221, 3) := by decide +kernel
theorem dX8_errorPlace_10 : decode cX8_errorPlace 10 = .ok (.istore_n 1, 1) := by decide +kernel
theorem dX8_errorPlace_11 : decode cX8_errorPlace 11 = .ok (.aload_n 0, 1) := by decide +kernel
theorem dX8_errorPlace_12 : decode cX8_errorPlace 12 = .ok (.getfield 167, 3) := by decide +kernel
theorem dX8_errorPlace_15 : decode cX8_errorPlace 15 = .ok (.ireturn, 1) := by decide +kernel
set_option maxRecDepth 20000 in
theorem ggX8_run_X8_reads : GoodIn wsX8_run wsX8_reads := goodIn_r _ [6, 1, 7, 8, 9, 10, 11, 12, 13, 14, 15, 16, 5, 17, 18, 19, 20, 21, 22, 23, 24, 25, 26, 27, 28, 29, 30, 31, 32, 33, 34, 35, 36, 37, 38, 39, 40, 41, 42, 43, 44, 45, 46, 47, 48, 49, 50, 51, 52, 53, 54, 55, 56, 57, 58, 59, 60, 61, 62, 63, 64, 65, 66, 67, 68, 69, 70, 71, 72, 73, 74, 75, 76, 77, 83, 84, 85, 86, 87, 88, 89, 90, 91, 92, 93, 94, 95, 96, 97, 98, 99, 100, 101] (by decide +kernel) (by decide +kernel)
set_option maxRecDepth 20000 in
theorem gX8_run_X8_reads : GoodIn wsX8_run (wsV RX8 221 RX8 yX8_reads wsX8_reads) := goodIn_app (goodIn_of _ (by decide +kernel)) ggX8_run_X8_reads
set_option maxRecDepth 20000 in
theorem ggX8_run_X8_passes : GoodIn wsX8_run wsX8_passes := goodIn_r _ [81, 82, 83, 84, 85, 86, 87, 88, 89, 90, 91, 92, 93, 94, 95, 96, 97, 98, 99, 100, 101] (by decide +kernel) (by decide +kernel)
set_option maxRecDepth 20000 in
theorem gX8_run_X8_passes : GoodIn wsX8_run (wsV RX8 72 RX8 yX8_passes wsX8_passes) := goodIn_app (goodIn_of _ (by decide +kernel)) ggX8_run_X8_passes
theorem dX8_run_0 : decode cX8_run 0 = .ok (.aload_n 0, 1) := by decide +kernel
theorem dX8_run_1 : decode cX8_run 1 = .ok (.iconst 0, 1) := by decide +kernel
theorem dX8_run_2 : decode cX8_run 2 = .ok (.invokevirtual 221, 3) := by decide +kernel
theorem dX8_run_5 : decode cX8_run 5 = .ok (.istore_n 1, 1) := by decide +kernel
theorem dX8_run_6 : decode cX8_run 6 = .ok (.aload_n 0, 1) := by decide +kernel
theorem dX8_run_7 : decode cX8_run 7 = .ok (.aload_n 0, 1) := by decide +kernel
theorem dX8_run_8 : decode cX8_run 8 = .ok (.getfield 164, 3) := by decide +kernel
theorem dX8_run_11 : decode cX8_run 11 = .ok (.ifCond .ne 7, 3) := by decide +kernel
theorem dX8_run_14 : decode cX8_run 14 = .ok (.iconst 1, 1) := by decide +kernel
theorem dX8_run_15 : decode cX8_run 15 = .ok (.goto 4, 3) := by decide +kernel
theorem dX8_run_18 : decode cX8_run 18 = .ok (.iconst 0, 1) := by decide +kernel
theorem dX8_run_19 : decode cX8_run 19 = .ok (.iconst 1, 1) := by decide +kernel
theorem dX8_run_20 : decode cX8_run 20 = .ok (.invokevirtual 72, 3) := by decide +kernel
theorem dX8_run_23 : decode cX8_run 23 = .ok (.ifCond .eq 11, 3) := by decide +kernel
theorem dX8_run_26 : decode cX8_run 26 = .ok (.aload_n 0, 1) := by decide +kernel
theorem dX8_run_27 : decode cX8_run 27 = .ok (.iconst 1, 1) := by decide +kernel
theorem dX8_run_28 : decode cX8_run 28 = .ok (.invokevirtual 221, 3) := by decide +kernel
theorem dX8_run_31 : decode cX8_run 31 = .ok (.goto 4, 3) := by decide +kernel
theorem dX8_run_34 : decode cX8_run 34 = .ok (.iconst 0, 1) := by decide +kernel
theorem dX8_run_35 : decode cX8_run 35 = .ok (.ireturn, 1) := by decide +kernel
set_option maxRecDepth 20000 in
theorem ggX8_viewHas_X8_has : GoodIn wsX8_viewHas wsX8_has := goodIn_r _ [5, 6, 7, 8, 4, 9, 10, 11, 12, 13, 14, 15, 16, 17, 18, 19, 20, 21, 22, 23, 24, 25, 26, 27, 28, 29, 30, 31, 32, 33, 34, 35, 36, 37, 38, 39, 40, 41, 42] (by decide +kernel) (by decide +kernel)
set_option maxRecDepth 20000 in
theorem gX8_viewHas_X8_has : GoodIn wsX8_viewHas (wsV RX8 225 RX8 yX8_has wsX8_has) := goodIn_app (goodIn_of _ (by decide +kernel)) ggX8_viewHas_X8_has
theorem dX8_viewHas_0 : decode cX8_viewHas 0 = .ok (.aload_n 0, 1) := by decide +kernel
theorem dX8_viewHas_1 : decode cX8_viewHas 1 = .ok (.iload_n 1, 1) := by decide +kernel
theorem dX8_viewHas_2 : decode cX8_viewHas 2 = .ok (.iload_n 2, 1) := by decide +kernel
theorem dX8_viewHas_3 : decode cX8_viewHas 3 = .ok (.invokevirtual 225, 3) := by decide +kernel
theorem dX8_viewHas_6 : decode cX8_viewHas 6 = .ok (.ireturn, 1) := by decide +kernel
set_option maxRecDepth 20000 in
theorem ggX8_viewRefuses_X8_isSet : GoodIn wsX8_viewRefuses wsX8_isSet := goodIn_r _ [5, 6, 7, 4, 8] (by decide +kernel) (by decide +kernel)
set_option maxRecDepth 20000 in
theorem gX8_viewRefuses_X8_isSet : GoodIn wsX8_viewRefuses (va_wsS RX8 65 yX8_isSet wsX8_isSet) := goodIn_app (goodIn_of _ (by decide +kernel)) ggX8_viewRefuses_X8_isSet
set_option maxRecDepth 20000 in
theorem ggX8_viewRefuses_X8_in : GoodIn wsX8_viewRefuses wsX8_in := goodIn_r _ [8] (by decide +kernel) (by decide +kernel)
set_option maxRecDepth 20000 in
theorem gX8_viewRefuses_X8_in : GoodIn wsX8_viewRefuses (va_wsS RX8 7 yX8_in wsX8_in) := goodIn_app (goodIn_of _ (by decide +kernel)) ggX8_viewRefuses_X8_in
set_option maxRecDepth 20000 in
theorem ggX8_viewRefuses_X8_isMember : GoodIn wsX8_viewRefuses wsX8_isMember := goodIn_r _ [11, 6, 7, 4, 8] (by decide +kernel) (by decide +kernel)
set_option maxRecDepth 20000 in
theorem gX8_viewRefuses_X8_isMember : GoodIn wsX8_viewRefuses (va_wsS RX8 69 yX8_isMember wsX8_isMember) := goodIn_app (goodIn_of _ (by decide +kernel)) ggX8_viewRefuses_X8_isMember
set_option maxRecDepth 20000 in
theorem ggX8_viewRefuses_X8_passes : GoodIn wsX8_viewRefuses wsX8_passes := goodIn_r _ [15, 16, 20, 21, 22, 23, 24, 25, 26, 27, 28, 29, 30, 31, 32, 33, 34, 35, 36, 37, 38] (by decide +kernel) (by decide +kernel)
set_option maxRecDepth 20000 in
theorem gX8_viewRefuses_X8_passes : GoodIn wsX8_viewRefuses (wsV RX8 72 RX8 yX8_passes wsX8_passes) := goodIn_app (goodIn_of _ (by decide +kernel)) ggX8_viewRefuses_X8_passes
set_option maxRecDepth 20000 in
theorem ggX8_viewRefuses_X8_sizeOf : GoodIn wsX8_viewRefuses wsX8_sizeOf := goodIn_r _ [19] (by decide +kernel) (by decide +kernel)
set_option maxRecDepth 20000 in
theorem gX8_viewRefuses_X8_sizeOf : GoodIn wsX8_viewRefuses (va_wsS RX8 80 yX8_sizeOf wsX8_sizeOf) := goodIn_app (goodIn_of _ (by decide +kernel)) ggX8_viewRefuses_X8_sizeOf
theorem dX8_viewRefuses_0 : decode cX8_viewRefuses 0 = .ok (.aload_n 0, 1) := by decide +kernel
theorem dX8_viewRefuses_1 : decode cX8_viewRefuses 1 = .ok (.iload_n 1, 1) := by decide +kernel
theorem dX8_viewRefuses_2 : decode cX8_viewRefuses 2 = .ok (.invokestatic 65, 3) := by decide +kernel
theorem dX8_viewRefuses_5 : decode cX8_viewRefuses 5 = .ok (.iload_n 2, 1) := by decide +kernel
theorem dX8_viewRefuses_6 : decode cX8_viewRefuses 6 = .ok (.iconst 0, 1) := by decide +kernel
theorem dX8_viewRefuses_7 : decode cX8_viewRefuses 7 = .ok (.bipush 6, 2) := by decide +kernel
theorem dX8_viewRefuses_9 : decode cX8_viewRefuses 9 = .ok (.invokestatic 7, 3) := by decide +kernel
theorem dX8_viewRefuses_12 : decode cX8_viewRefuses 12 = .ok (.ifCond .eq 14, 3) := by decide +kernel
theorem dX8_viewRefuses_15 : decode cX8_viewRefuses 15 = .ok (.iload_n 3, 1) := by decide +kernel
theorem dX8_viewRefuses_16 : decode cX8_viewRefuses 16 = .ok (.invokestatic 69, 3) := by decide +kernel
theorem dX8_viewRefuses_19 : decode cX8_viewRefuses 19 = .ok (.ifCond .eq 7, 3) := by decide +kernel
theorem dX8_viewRefuses_22 : decode cX8_viewRefuses 22 = .ok (.iconst 1, 1) := by decide +kernel
theorem dX8_viewRefuses_23 : decode cX8_viewRefuses 23 = .ok (.goto 4, 3) := by decide +kernel
theorem dX8_viewRefuses_26 : decode cX8_viewRefuses 26 = .ok (.iconst 0, 1) := by decide +kernel
theorem dX8_viewRefuses_27 : decode cX8_viewRefuses 27 = .ok (.invokevirtual 72, 3) := by decide +kernel
theorem dX8_viewRefuses_30 : decode cX8_viewRefuses 30 = .ok (.ifCond .eq 25, 3) := by decide +kernel
theorem dX8_viewRefuses_33 : decode cX8_viewRefuses 33 = .ok (.iload_n 2, 1) := by decide +kernel
theorem dX8_viewRefuses_34 : decode cX8_viewRefuses 34 = .ok (.bipush 6, 2) := by decide +kernel
theorem dX8_viewRefuses_36 : decode cX8_viewRefuses 36 = .ok (.if_icmp .lt 15, 3) := by decide +kernel
theorem dX8_viewRefuses_39 : decode cX8_viewRefuses 39 = .ok (.aload_n 0, 1) := by decide +kernel
theorem dX8_viewRefuses_40 : decode cX8_viewRefuses 40 = .ok (.getfield 27, 3) := by decide +kernel
theorem dX8_viewRefuses_43 : decode cX8_viewRefuses 43 = .ok (.iload_n 1, 1) := by decide +kernel
theorem dX8_viewRefuses_44 : decode cX8_viewRefuses 44 = .ok (.aaload, 1) := by decide +kernel
theorem dX8_viewRefuses_45 : decode cX8_viewRefuses 45 = .ok (.invokestatic 80, 3) := by decide +kernel
theorem dX8_viewRefuses_48 : decode cX8_viewRefuses 48 = .ok (.ifCond .le 7, 3) := by decide +kernel
theorem dX8_viewRefuses_51 : decode cX8_viewRefuses 51 = .ok (.iconst 1, 1) := by decide +kernel
theorem dX8_viewRefuses_52 : decode cX8_viewRefuses 52 = .ok (.goto 4, 3) := by decide +kernel
theorem dX8_viewRefuses_55 : decode cX8_viewRefuses 55 = .ok (.iconst 0, 1) := by decide +kernel
theorem dX8_viewRefuses_56 : decode cX8_viewRefuses 56 = .ok (.ireturn, 1) := by decide +kernel
set_option maxRecDepth 20000 in
theorem ggX8_walkRefuses_X8_isSet : GoodIn wsX8_walkRefuses wsX8_isSet := goodIn_r _ [5, 6, 7, 4, 8] (by decide +kernel) (by decide +kernel)
set_option maxRecDepth 20000 in
theorem gX8_walkRefuses_X8_isSet : GoodIn wsX8_walkRefuses (va_wsS RX8 65 yX8_isSet wsX8_isSet) := goodIn_app (goodIn_of _ (by decide +kernel)) ggX8_walkRefuses_X8_isSet
set_option maxRecDepth 20000 in
theorem ggX8_walkRefuses_X8_in : GoodIn wsX8_walkRefuses wsX8_in := goodIn_r _ [8] (by decide +kernel) (by decide +kernel)
set_option maxRecDepth 20000 in
theorem gX8_walkRefuses_X8_in : GoodIn wsX8_walkRefuses (va_wsS RX8 7 yX8_in wsX8_in) := goodIn_app (goodIn_of _ (by decide +kernel)) ggX8_walkRefuses_X8_in
set_option maxRecDepth 20000 in
theorem ggX8_walkRefuses_X8_passes : GoodIn wsX8_walkRefuses wsX8_passes := goodIn_r _ [12, 13, 17, 18, 19, 20, 21, 22, 23, 24, 25, 26, 27, 28, 29, 30, 31, 32, 33, 34, 35] (by decide +kernel) (by decide +kernel)
set_option maxRecDepth 20000 in
theorem gX8_walkRefuses_X8_passes : GoodIn wsX8_walkRefuses (wsV RX8 72 RX8 yX8_passes wsX8_passes) := goodIn_app (goodIn_of _ (by decide +kernel)) ggX8_walkRefuses_X8_passes
set_option maxRecDepth 20000 in
theorem ggX8_walkRefuses_X8_sizeOf : GoodIn wsX8_walkRefuses wsX8_sizeOf := goodIn_r _ [16] (by decide +kernel) (by decide +kernel)
set_option maxRecDepth 20000 in
theorem gX8_walkRefuses_X8_sizeOf : GoodIn wsX8_walkRefuses (va_wsS RX8 80 yX8_sizeOf wsX8_sizeOf) := goodIn_app (goodIn_of _ (by decide +kernel)) ggX8_walkRefuses_X8_sizeOf
theorem dX8_walkRefuses_0 : decode cX8_walkRefuses 0 = .ok (.aload_n 0, 1) := by decide +kernel
theorem dX8_walkRefuses_1 : decode cX8_walkRefuses 1 = .ok (.iload_n 1, 1) := by decide +kernel
theorem dX8_walkRefuses_2 : decode cX8_walkRefuses 2 = .ok (.invokestatic 65, 3) := by decide +kernel
theorem dX8_walkRefuses_5 : decode cX8_walkRefuses 5 = .ok (.iload_n 2, 1) := by decide +kernel
theorem dX8_walkRefuses_6 : decode cX8_walkRefuses 6 = .ok (.iconst 0, 1) := by decide +kernel
theorem dX8_walkRefuses_7 : decode cX8_walkRefuses 7 = .ok (.iconst 2, 1) := by decide +kernel
theorem dX8_walkRefuses_8 : decode cX8_walkRefuses 8 = .ok (.invokestatic 7, 3) := by decide +kernel
theorem dX8_walkRefuses_11 : decode cX8_walkRefuses 11 = .ok (.invokevirtual 72, 3) := by decide +kernel
theorem dX8_walkRefuses_14 : decode cX8_walkRefuses 14 = .ok (.ifCond .ne 5, 3) := by decide +kernel
theorem dX8_walkRefuses_17 : decode cX8_walkRefuses 17 = .ok (.iconst 0, 1) := by decide +kernel
theorem dX8_walkRefuses_18 : decode cX8_walkRefuses 18 = .ok (.ireturn, 1) := by decide +kernel
theorem dX8_walkRefuses_19 : decode cX8_walkRefuses 19 = .ok (.iload_n 2, 1) := by decide +kernel
theorem dX8_walkRefuses_20 : decode cX8_walkRefuses 20 = .ok (.ifCond .eq 20, 3) := by decide +kernel
theorem dX8_walkRefuses_23 : decode cX8_walkRefuses 23 = .ok (.iload_n 2, 1) := by decide +kernel
theorem dX8_walkRefuses_24 : decode cX8_walkRefuses 24 = .ok (.iconst 2, 1) := by decide +kernel
theorem dX8_walkRefuses_25 : decode cX8_walkRefuses 25 = .ok (.if_icmp .ne 19, 3) := by decide +kernel
theorem dX8_walkRefuses_28 : decode cX8_walkRefuses 28 = .ok (.aload_n 0, 1) := by decide +kernel
theorem dX8_walkRefuses_29 : decode cX8_walkRefuses 29 = .ok (.getfield 27, 3) := by decide +kernel
theorem dX8_walkRefuses_32 : decode cX8_walkRefuses 32 = .ok (.iload_n 1, 1) := by decide +kernel
theorem dX8_walkRefuses_33 : decode cX8_walkRefuses 33 = .ok (.aaload, 1) := by decide +kernel
theorem dX8_walkRefuses_34 : decode cX8_walkRefuses 34 = .ok (.invokestatic 80, 3) := by decide +kernel
theorem dX8_walkRefuses_37 : decode cX8_walkRefuses 37 = .ok (.ifCond .ne 7, 3) := by decide +kernel
theorem dX8_walkRefuses_40 : decode cX8_walkRefuses 40 = .ok (.iconst 1, 1) := by decide +kernel
theorem dX8_walkRefuses_41 : decode cX8_walkRefuses 41 = .ok (.goto 4, 3) := by decide +kernel
theorem dX8_walkRefuses_44 : decode cX8_walkRefuses 44 = .ok (.iconst 2, 1) := by decide +kernel
theorem dX8_walkRefuses_45 : decode cX8_walkRefuses 45 = .ok (.ireturn, 1) := by decide +kernel
set_option maxRecDepth 20000 in
theorem ggX8_nullRefuses_X8_isSet : GoodIn wsX8_nullRefuses wsX8_isSet := goodIn_r _ [4, 5, 6, 3, 7] (by decide +kernel) (by decide +kernel)
set_option maxRecDepth 20000 in
theorem gX8_nullRefuses_X8_isSet : GoodIn wsX8_nullRefuses (va_wsS RX8 65 yX8_isSet wsX8_isSet) := goodIn_app (goodIn_of _ (by decide +kernel)) ggX8_nullRefuses_X8_isSet
set_option maxRecDepth 20000 in
theorem ggX8_nullRefuses_X8_in : GoodIn wsX8_nullRefuses wsX8_in := goodIn_r _ [7] (by decide +kernel) (by decide +kernel)
set_option maxRecDepth 20000 in
theorem gX8_nullRefuses_X8_in : GoodIn wsX8_nullRefuses (va_wsS RX8 7 yX8_in wsX8_in) := goodIn_app (goodIn_of _ (by decide +kernel)) ggX8_nullRefuses_X8_in
set_option maxRecDepth 20000 in
theorem ggX8_nullRefuses_X8_passes : GoodIn wsX8_nullRefuses wsX8_passes := goodIn_r _ [11, 12, 13, 14, 15, 16, 17, 18, 19, 20, 21, 22, 23, 24, 25, 26, 27, 28, 29, 30, 31] (by decide +kernel) (by decide +kernel)
set_option maxRecDepth 20000 in
theorem gX8_nullRefuses_X8_passes : GoodIn wsX8_nullRefuses (wsV RX8 72 RX8 yX8_passes wsX8_passes) := goodIn_app (goodIn_of _ (by decide +kernel)) ggX8_nullRefuses_X8_passes
theorem dX8_nullRefuses_0 : decode cX8_nullRefuses 0 = .ok (.aload_n 0, 1) := by decide +kernel
theorem dX8_nullRefuses_1 : decode cX8_nullRefuses 1 = .ok (.iload_n 1, 1) := by decide +kernel
theorem dX8_nullRefuses_2 : decode cX8_nullRefuses 2 = .ok (.invokestatic 65, 3) := by decide +kernel
theorem dX8_nullRefuses_5 : decode cX8_nullRefuses 5 = .ok (.iload_n 2, 1) := by decide +kernel
theorem dX8_nullRefuses_6 : decode cX8_nullRefuses 6 = .ok (.iconst 0, 1) := by decide +kernel
theorem dX8_nullRefuses_7 : decode cX8_nullRefuses 7 = .ok (.iconst 3, 1) := by decide +kernel
theorem dX8_nullRefuses_8 : decode cX8_nullRefuses 8 = .ok (.invokestatic 7, 3) := by decide +kernel
theorem dX8_nullRefuses_11 : decode cX8_nullRefuses 11 = .ok (.invokevirtual 72, 3) := by decide +kernel
theorem dX8_nullRefuses_14 : decode cX8_nullRefuses 14 = .ok (.ireturn, 1) := by decide +kernel
set_option maxRecDepth 20000 in
theorem ggX8_three_X8_joins : GoodIn wsX8_three wsX8_joins := goodIn_r _ [5] (by decide +kernel) (by decide +kernel)
set_option maxRecDepth 20000 in
theorem gX8_three_X8_joins : GoodIn wsX8_three (va_wsS RX8 87 yX8_joins wsX8_joins) := goodIn_app (goodIn_of _ (by decide +kernel)) ggX8_three_X8_joins
theorem dX8_three_0 : decode cX8_three 0 = .ok (.iload 6, 2) := by decide +kernel
theorem dX8_three_2 : decode cX8_three 2 = .ok (.ifCond .eq 7, 3) := by decide +kernel
theorem dX8_three_5 : decode cX8_three 5 = .ok (.aload_n 2, 1) := by decide +kernel
theorem dX8_three_6 : decode cX8_three 6 = .ok (.goto 4, 3) := by decide +kernel
theorem dX8_three_9 : decode cX8_three 9 = .ok (.aload_n 1, 1) := by decide +kernel
theorem dX8_three_10 : decode cX8_three 10 = .ok (.iload 6, 2) := by decide +kernel
theorem dX8_three_12 : decode cX8_three 12 = .ok (.ifCond .eq 7, 3) := by decide +kernel
theorem dX8_three_15 : decode cX8_three 15 = .ok (.aload_n 3, 1) := by decide +kernel
theorem dX8_three_16 : decode cX8_three 16 = .ok (.goto 4, 3) := by decide +kernel
theorem dX8_three_19 : decode cX8_three 19 = .ok (.aload_n 2, 1) := by decide +kernel
theorem dX8_three_20 : decode cX8_three 20 = .ok (.iload 4, 2) := by decide +kernel
theorem dX8_three_22 : decode cX8_three 22 = .ok (.aload_n 0, 1) := by decide +kernel
theorem dX8_three_23 : decode cX8_three 23 = .ok (.getfield 56, 3) := by decide +kernel
theorem dX8_three_26 : decode cX8_three 26 = .ok (.invokestatic 87, 3) := by decide +kernel
theorem dX8_three_29 : decode cX8_three 29 = .ok (.iload 6, 2) := by decide +kernel
theorem dX8_three_31 : decode cX8_three 31 = .ok (.ifCond .eq 7, 3) := by decide +kernel
theorem dX8_three_34 : decode cX8_three 34 = .ok (.aload_n 1, 1) := by decide +kernel
theorem dX8_three_35 : decode cX8_three 35 = .ok (.goto 7, 3) := by decide +kernel
theorem dX8_three_38 : decode cX8_three 38 = .ok (.aload_n 0, 1) := by decide +kernel
theorem dX8_three_39 : decode cX8_three 39 = .ok (.getfield 56, 3) := by decide +kernel
theorem dX8_three_42 : decode cX8_three 42 = .ok (.iload 6, 2) := by decide +kernel
theorem dX8_three_44 : decode cX8_three 44 = .ok (.ifCond .eq 10, 3) := by decide +kernel
theorem dX8_three_47 : decode cX8_three 47 = .ok (.aload_n 0, 1) := by decide +kernel
theorem dX8_three_48 : decode cX8_three 48 = .ok (.getfield 56, 3) := by decide +kernel
theorem dX8_three_51 : decode cX8_three 51 = .ok (.goto 4, 3) := by decide +kernel
theorem dX8_three_54 : decode cX8_three 54 = .ok (.aload_n 3, 1) := by decide +kernel
theorem dX8_three_55 : decode cX8_three 55 = .ok (.iload 5, 2) := by decide +kernel
theorem dX8_three_57 : decode cX8_three 57 = .ok (.aload 7, 2) := by decide +kernel
theorem dX8_three_59 : decode cX8_three 59 = .ok (.invokestatic 87, 3) := by decide +kernel
theorem dX8_three_62 : decode cX8_three 62 = .ok (.return_, 1) := by decide +kernel
set_option maxRecDepth 20000 in
theorem ggX8_others_X8_areSame : GoodIn wsX8_others wsX8_areSame := goodIn_r _ [6, 7, 8, 5, 9] (by decide +kernel) (by decide +kernel)
set_option maxRecDepth 20000 in
theorem gX8_others_X8_areSame : GoodIn wsX8_others (va_wsS RX8 99 yX8_areSame wsX8_areSame) := goodIn_app (goodIn_of _ (by decide +kernel)) ggX8_others_X8_areSame
theorem dX8_others_0 : decode cX8_others 0 = .ok (.aload_n 0, 1) := by decide +kernel
theorem dX8_others_1 : decode cX8_others 1 = .ok (.getfield 50, 3) := by decide +kernel
theorem dX8_others_4 : decode cX8_others 4 = .ok (.aload_n 0, 1) := by decide +kernel
theorem dX8_others_5 : decode cX8_others 5 = .ok (.getfield 53, 3) := by decide +kernel
theorem dX8_others_8 : decode cX8_others 8 = .ok (.invokestatic 99, 3) := by decide +kernel
theorem dX8_others_11 : decode cX8_others 11 = .ok (.ifCond .eq 7, 3) := by decide +kernel
theorem dX8_others_14 : decode cX8_others 14 = .ok (.iconst 0, 1) := by decide +kernel
theorem dX8_others_15 : decode cX8_others 15 = .ok (.goto 4, 3) := by decide +kernel
theorem dX8_others_18 : decode cX8_others 18 = .ok (.iconst 1, 1) := by decide +kernel
theorem dX8_others_19 : decode cX8_others 19 = .ok (.ireturn, 1) := by decide +kernel
set_option maxRecDepth 20000 in
theorem ggX8_ordersAndBrackets_X8_joins : GoodIn wsX8_ordersAndBrackets wsX8_joins := goodIn_r _ [6] (by decide +kernel) (by decide +kernel)
set_option maxRecDepth 20000 in
theorem gX8_ordersAndBrackets_X8_joins : GoodIn wsX8_ordersAndBrackets (va_wsS RX8 87 yX8_joins wsX8_joins) := goodIn_app (goodIn_of _ (by decide +kernel)) ggX8_ordersAndBrackets_X8_joins
set_option maxRecDepth 20000 in
theorem ggX8_ordersAndBrackets_X8_others : GoodIn wsX8_ordersAndBrackets wsX8_others := goodIn_r _ [10, 1, 2, 11, 12, 5, 13, 14, 15, 16, 25, 26, 27, 28, 29, 30, 31, 32, 33, 34, 35, 36, 37, 38, 39, 40, 41, 42, 43] (by decide +kernel) (by decide +kernel)
set_option maxRecDepth 20000 in
theorem gX8_ordersAndBrackets_X8_others : GoodIn wsX8_ordersAndBrackets (wsV RX8 229 RX8 yX8_others wsX8_others) := goodIn_app (goodIn_of _ (by decide +kernel)) ggX8_ordersAndBrackets_X8_others
set_option maxRecDepth 20000 in
theorem ggX8_ordersAndBrackets_X8_three : GoodIn wsX8_ordersAndBrackets wsX8_three := goodIn_r _ [20, 21, 3, 4, 5, 6, 25, 26, 27, 28, 29, 30, 31, 32, 33, 34, 35, 36, 37, 38, 39, 40, 41, 42, 43] (by decide +kernel) (by decide +kernel)
set_option maxRecDepth 20000 in
theorem gX8_ordersAndBrackets_X8_three : GoodIn wsX8_ordersAndBrackets (wsV RX8 232 RX8 yX8_three wsX8_three) := goodIn_app (goodIn_of _ (by decide +kernel)) ggX8_ordersAndBrackets_X8_three
set_option maxRecDepth 20000 in
theorem ggX8_ordersAndBrackets_X8_copies : GoodIn wsX8_ordersAndBrackets wsX8_copies := goodIn_r _ [24] (by decide +kernel) (by decide +kernel)
set_option maxRecDepth 20000 in
theorem gX8_ordersAndBrackets_X8_copies : GoodIn wsX8_ordersAndBrackets (va_wsS RX8 95 yX8_copies wsX8_copies) := goodIn_app (goodIn_of _ (by decide +kernel)) ggX8_ordersAndBrackets_X8_copies
theorem dX8_ordersAndBrackets_0 : decode cX8_ordersAndBrackets 0 = .ok (.aload_n 1, 1) := by decide +kernel
theorem dX8_ordersAndBrackets_1 : decode cX8_ordersAndBrackets 1 = .ok (.aload_n 2, 1) := by decide +kernel
theorem dX8_ordersAndBrackets_2 : decode cX8_ordersAndBrackets 2 = .ok (.iload 4, 2) := by decide +kernel
theorem dX8_ordersAndBrackets_4 : decode cX8_ordersAndBrackets 4 = .ok (.aload_n 0, 1) := by decide +kernel
theorem dX8_ordersAndBrackets_5 : decode cX8_ordersAndBrackets 5 = .ok (.getfield 50, 3) := by decide +kernel
theorem dX8_ordersAndBrackets_8 : decode cX8_ordersAndBrackets 8 = .ok (.invokestatic 87, 3) := by decide +kernel
theorem dX8_ordersAndBrackets_11 : decode cX8_ordersAndBrackets 11 = .ok (.aload_n 2, 1) := by decide +kernel
theorem dX8_ordersAndBrackets_12 : decode cX8_ordersAndBrackets 12 = .ok (.aload_n 1, 1) := by decide +kernel
theorem dX8_ordersAndBrackets_13 : decode cX8_ordersAndBrackets 13 = .ok (.iload 4, 2) := by decide +kernel
theorem dX8_ordersAndBrackets_15 : decode cX8_ordersAndBrackets 15 = .ok (.aload_n 0, 1) := by decide +kernel
theorem dX8_ordersAndBrackets_16 : decode cX8_ordersAndBrackets 16 = .ok (.getfield 53, 3) := by decide +kernel
theorem dX8_ordersAndBrackets_19 : decode cX8_ordersAndBrackets 19 = .ok (.invokestatic 87, 3) := by decide +kernel
theorem dX8_ordersAndBrackets_22 : decode cX8_ordersAndBrackets 22 = .ok (.aload_n 0, 1) := by decide +kernel
theorem dX8_ordersAndBrackets_23 : decode cX8_ordersAndBrackets 23 = .ok (.invokevirtual 229, 3) := by decide +kernel
theorem dX8_ordersAndBrackets_26 : decode cX8_ordersAndBrackets 26 = .ok (.istore 5, 2) := by decide +kernel
theorem dX8_ordersAndBrackets_28 : decode cX8_ordersAndBrackets 28 = .ok (.aload_n 0, 1) := by decide +kernel
theorem dX8_ordersAndBrackets_29 : decode cX8_ordersAndBrackets 29 = .ok (.aload_n 1, 1) := by decide +kernel
theorem dX8_ordersAndBrackets_30 : decode cX8_ordersAndBrackets 30 = .ok (.aload_n 2, 1) := by decide +kernel
theorem dX8_ordersAndBrackets_31 : decode cX8_ordersAndBrackets 31 = .ok (.aload_n 3, 1) := by decide +kernel
theorem dX8_ordersAndBrackets_32 : decode cX8_ordersAndBrackets 32 = .ok (.iload 4, 2) := by decide +kernel
theorem dX8_ordersAndBrackets_34 : decode cX8_ordersAndBrackets 34 = .ok (.iload 4, 2) := by decide +kernel
theorem dX8_ordersAndBrackets_36 : decode cX8_ordersAndBrackets 36 = .ok (.iconst 0, 1) := by decide +kernel
theorem dX8_ordersAndBrackets_37 : decode cX8_ordersAndBrackets 37 = .ok (.aload_n 0, 1) := by decide +kernel
theorem dX8_ordersAndBrackets_38 : decode cX8_ordersAndBrackets 38 = .ok (.getfield 50, 3) := by decide +kernel
theorem dX8_ordersAndBrackets_41 : decode cX8_ordersAndBrackets 41 = .ok (.invokevirtual 232, 3) := by decide +kernel
theorem dX8_ordersAndBrackets_44 : decode cX8_ordersAndBrackets 44 = .ok (.aload_n 0, 1) := by decide +kernel
theorem dX8_ordersAndBrackets_45 : decode cX8_ordersAndBrackets 45 = .ok (.aload_n 1, 1) := by decide +kernel
theorem dX8_ordersAndBrackets_46 : decode cX8_ordersAndBrackets 46 = .ok (.aload_n 2, 1) := by decide +kernel
theorem dX8_ordersAndBrackets_47 : decode cX8_ordersAndBrackets 47 = .ok (.aload_n 3, 1) := by decide +kernel
theorem dX8_ordersAndBrackets_48 : decode cX8_ordersAndBrackets 48 = .ok (.iload 4, 2) := by decide +kernel
theorem dX8_ordersAndBrackets_50 : decode cX8_ordersAndBrackets 50 = .ok (.iload 4, 2) := by decide +kernel
theorem dX8_ordersAndBrackets_52 : decode cX8_ordersAndBrackets 52 = .ok (.iconst 1, 1) := by decide +kernel
theorem dX8_ordersAndBrackets_53 : decode cX8_ordersAndBrackets 53 = .ok (.aload_n 0, 1) := by decide +kernel
theorem dX8_ordersAndBrackets_54 : decode cX8_ordersAndBrackets 54 = .ok (.getfield 53, 3) := by decide +kernel
theorem dX8_ordersAndBrackets_57 : decode cX8_ordersAndBrackets 57 = .ok (.invokevirtual 232, 3) := by decide +kernel
theorem dX8_ordersAndBrackets_60 : decode cX8_ordersAndBrackets 60 = .ok (.iload 5, 2) := by decide +kernel
theorem dX8_ordersAndBrackets_62 : decode cX8_ordersAndBrackets 62 = .ok (.aload_n 0, 1) := by decide +kernel
theorem dX8_ordersAndBrackets_63 : decode cX8_ordersAndBrackets 63 = .ok (.invokevirtual 229, 3) := by decide +kernel
theorem dX8_ordersAndBrackets_66 : decode cX8_ordersAndBrackets 66 = .ok (.iadd, 1) := by decide +kernel
theorem dX8_ordersAndBrackets_67 : decode cX8_ordersAndBrackets 67 = .ok (.istore 5, 2) := by decide +kernel
theorem dX8_ordersAndBrackets_69 : decode cX8_ordersAndBrackets 69 = .ok (.aload_n 1, 1) := by decide +kernel
theorem dX8_ordersAndBrackets_70 : decode cX8_ordersAndBrackets 70 = .ok (.aload_n 1, 1) := by decide +kernel
theorem dX8_ordersAndBrackets_71 : decode cX8_ordersAndBrackets 71 = .ok (.iload 4, 2) := by decide +kernel
theorem dX8_ordersAndBrackets_73 : decode cX8_ordersAndBrackets 73 = .ok (.aload_n 0, 1) := by decide +kernel
theorem dX8_ordersAndBrackets_74 : decode cX8_ordersAndBrackets 74 = .ok (.getfield 50, 3) := by decide +kernel
theorem dX8_ordersAndBrackets_77 : decode cX8_ordersAndBrackets 77 = .ok (.invokestatic 87, 3) := by decide +kernel
theorem dX8_ordersAndBrackets_80 : decode cX8_ordersAndBrackets 80 = .ok (.aload_n 1, 1) := by decide +kernel
theorem dX8_ordersAndBrackets_81 : decode cX8_ordersAndBrackets 81 = .ok (.aload_n 0, 1) := by decide +kernel
theorem dX8_ordersAndBrackets_82 : decode cX8_ordersAndBrackets 82 = .ok (.getfield 53, 3) := by decide +kernel
theorem dX8_ordersAndBrackets_85 : decode cX8_ordersAndBrackets 85 = .ok (.invokestatic 95, 3) := by decide +kernel
theorem dX8_ordersAndBrackets_88 : decode cX8_ordersAndBrackets 88 = .ok (.iload 5, 2) := by decide +kernel
theorem dX8_ordersAndBrackets_90 : decode cX8_ordersAndBrackets 90 = .ok (.aload_n 0, 1) := by decide +kernel
theorem dX8_ordersAndBrackets_91 : decode cX8_ordersAndBrackets 91 = .ok (.invokevirtual 229, 3) := by decide +kernel
theorem dX8_ordersAndBrackets_94 : decode cX8_ordersAndBrackets 94 = .ok (.iadd, 1) := by decide +kernel
theorem dX8_ordersAndBrackets_95 : decode cX8_ordersAndBrackets 95 = .ok (.ireturn, 1) := by decide +kernel
set_option maxRecDepth 20000 in
theorem ggX8_parts_X8_three : GoodIn wsX8_parts wsX8_three := goodIn_r _ [8, 3, 9, 10, 7, 11, 22, 23, 24, 25, 26, 27, 28, 29, 30, 31, 32, 33, 34, 35, 36, 37, 38, 39, 40] (by decide +kernel) (by decide +kernel)
set_option maxRecDepth 20000 in
theorem gX8_parts_X8_three : GoodIn wsX8_parts (wsV RX8 232 RX8 yX8_three wsX8_three) := goodIn_app (goodIn_of _ (by decide +kernel)) ggX8_parts_X8_three
set_option maxRecDepth 20000 in
theorem ggX8_parts_X8_joins : GoodIn wsX8_parts wsX8_joins := goodIn_r _ [11] (by decide +kernel) (by decide +kernel)
set_option maxRecDepth 20000 in
theorem gX8_parts_X8_joins : GoodIn wsX8_parts (va_wsS RX8 87 yX8_joins wsX8_joins) := goodIn_app (goodIn_of _ (by decide +kernel)) ggX8_parts_X8_joins
set_option maxRecDepth 20000 in
theorem ggX8_parts_X8_others : GoodIn wsX8_parts wsX8_others := goodIn_r _ [15, 1, 2, 16, 17, 7, 18, 19, 20, 21, 22, 23, 24, 25, 26, 27, 28, 29, 30, 31, 32, 33, 34, 35, 36, 37, 38, 39, 40] (by decide +kernel) (by decide +kernel)
set_option maxRecDepth 20000 in
theorem gX8_parts_X8_others : GoodIn wsX8_parts (wsV RX8 229 RX8 yX8_others wsX8_others) := goodIn_app (goodIn_of _ (by decide +kernel)) ggX8_parts_X8_others
theorem dX8_parts_0 : decode cX8_parts 0 = .ok (.aload_n 0, 1) := by decide +kernel
theorem dX8_parts_1 : decode cX8_parts 1 = .ok (.aload_n 1, 1) := by decide +kernel
theorem dX8_parts_2 : decode cX8_parts 2 = .ok (.aload_n 2, 1) := by decide +kernel
theorem dX8_parts_3 : decode cX8_parts 3 = .ok (.aload_n 3, 1) := by decide +kernel
theorem dX8_parts_4 : decode cX8_parts 4 = .ok (.iload 5, 2) := by decide +kernel
theorem dX8_parts_6 : decode cX8_parts 6 = .ok (.iload 4, 2) := by decide +kernel
theorem dX8_parts_8 : decode cX8_parts 8 = .ok (.iconst 1, 1) := by decide +kernel
theorem dX8_parts_9 : decode cX8_parts 9 = .ok (.aload_n 0, 1) := by decide +kernel
theorem dX8_parts_10 : decode cX8_parts 10 = .ok (.getfield 50, 3) := by decide +kernel
theorem dX8_parts_13 : decode cX8_parts 13 = .ok (.invokevirtual 232, 3) := by decide +kernel
theorem dX8_parts_16 : decode cX8_parts 16 = .ok (.aload_n 1, 1) := by decide +kernel
theorem dX8_parts_17 : decode cX8_parts 17 = .ok (.aload_n 2, 1) := by decide +kernel
theorem dX8_parts_18 : decode cX8_parts 18 = .ok (.iload 4, 2) := by decide +kernel
theorem dX8_parts_20 : decode cX8_parts 20 = .ok (.aload_n 0, 1) := by decide +kernel
theorem dX8_parts_21 : decode cX8_parts 21 = .ok (.getfield 53, 3) := by decide +kernel
theorem dX8_parts_24 : decode cX8_parts 24 = .ok (.invokestatic 87, 3) := by decide +kernel
theorem dX8_parts_27 : decode cX8_parts 27 = .ok (.aload_n 1, 1) := by decide +kernel
theorem dX8_parts_28 : decode cX8_parts 28 = .ok (.aload_n 3, 1) := by decide +kernel
theorem dX8_parts_29 : decode cX8_parts 29 = .ok (.iload 4, 2) := by decide +kernel
theorem dX8_parts_31 : decode cX8_parts 31 = .ok (.aload_n 0, 1) := by decide +kernel
theorem dX8_parts_32 : decode cX8_parts 32 = .ok (.getfield 56, 3) := by decide +kernel
theorem dX8_parts_35 : decode cX8_parts 35 = .ok (.invokestatic 87, 3) := by decide +kernel
theorem dX8_parts_38 : decode cX8_parts 38 = .ok (.aload_n 0, 1) := by decide +kernel
theorem dX8_parts_39 : decode cX8_parts 39 = .ok (.getfield 53, 3) := by decide +kernel
theorem dX8_parts_42 : decode cX8_parts 42 = .ok (.aload_n 0, 1) := by decide +kernel
theorem dX8_parts_43 : decode cX8_parts 43 = .ok (.getfield 56, 3) := by decide +kernel
theorem dX8_parts_46 : decode cX8_parts 46 = .ok (.iload 5, 2) := by decide +kernel
theorem dX8_parts_48 : decode cX8_parts 48 = .ok (.aload_n 0, 1) := by decide +kernel
theorem dX8_parts_49 : decode cX8_parts 49 = .ok (.getfield 53, 3) := by decide +kernel
theorem dX8_parts_52 : decode cX8_parts 52 = .ok (.invokestatic 87, 3) := by decide +kernel
theorem dX8_parts_55 : decode cX8_parts 55 = .ok (.aload_n 0, 1) := by decide +kernel
theorem dX8_parts_56 : decode cX8_parts 56 = .ok (.invokevirtual 229, 3) := by decide +kernel
theorem dX8_parts_59 : decode cX8_parts 59 = .ok (.ireturn, 1) := by decide +kernel
set_option maxRecDepth 20000 in
theorem ggX8_within_X8_joins : GoodIn wsX8_within wsX8_joins := goodIn_r _ [5] (by decide +kernel) (by decide +kernel)
set_option maxRecDepth 20000 in
theorem gX8_within_X8_joins : GoodIn wsX8_within (va_wsS RX8 87 yX8_joins wsX8_joins) := goodIn_app (goodIn_of _ (by decide +kernel)) ggX8_within_X8_joins
set_option maxRecDepth 20000 in
theorem ggX8_within_X8_areSame : GoodIn wsX8_within wsX8_areSame := goodIn_r _ [8, 9, 10, 4, 11] (by decide +kernel) (by decide +kernel)
set_option maxRecDepth 20000 in
theorem gX8_within_X8_areSame : GoodIn wsX8_within (va_wsS RX8 99 yX8_areSame wsX8_areSame) := goodIn_app (goodIn_of _ (by decide +kernel)) ggX8_within_X8_areSame
set_option maxRecDepth 20000 in
theorem ggX8_within_X8_lies : GoodIn wsX8_within wsX8_lies := goodIn_r _ [14] (by decide +kernel) (by decide +kernel)
set_option maxRecDepth 20000 in
theorem gX8_within_X8_lies : GoodIn wsX8_within (va_wsS RX8 106 yX8_lies wsX8_lies) := goodIn_app (goodIn_of _ (by decide +kernel)) ggX8_within_X8_lies
theorem dX8_within_0 : decode cX8_within 0 = .ok (.aload_n 1, 1) := by decide +kernel
theorem dX8_within_1 : decode cX8_within 1 = .ok (.aload_n 2, 1) := by decide +kernel
theorem dX8_within_2 : decode cX8_within 2 = .ok (.iconst 0, 1) := by decide +kernel
theorem dX8_within_3 : decode cX8_within 3 = .ok (.aload_n 0, 1) := by decide +kernel
theorem dX8_within_4 : decode cX8_within 4 = .ok (.getfield 50, 3) := by decide +kernel
theorem dX8_within_7 : decode cX8_within 7 = .ok (.invokestatic 87, 3) := by decide +kernel
theorem dX8_within_10 : decode cX8_within 10 = .ok (.aload_n 0, 1) := by decide +kernel
theorem dX8_within_11 : decode cX8_within 11 = .ok (.getfield 50, 3) := by decide +kernel
theorem dX8_within_14 : decode cX8_within 14 = .ok (.aload_n 2, 1) := by decide +kernel
theorem dX8_within_15 : decode cX8_within 15 = .ok (.invokestatic 99, 3) := by decide +kernel
theorem dX8_within_18 : decode cX8_within 18 = .ok (.istore_n 3, 1) := by decide +kernel
theorem dX8_within_19 : decode cX8_within 19 = .ok (.aload_n 1, 1) := by decide +kernel
theorem dX8_within_20 : decode cX8_within 20 = .ok (.aload_n 2, 1) := by decide +kernel
theorem dX8_within_21 : decode cX8_within 21 = .ok (.iconst 1, 1) := by decide +kernel
theorem dX8_within_22 : decode cX8_within 22 = .ok (.aload_n 0, 1) := by decide +kernel
theorem dX8_within_23 : decode cX8_within 23 = .ok (.getfield 50, 3) := by decide +kernel
theorem dX8_within_26 : decode cX8_within 26 = .ok (.invokestatic 87, 3) := by decide +kernel
theorem dX8_within_29 : decode cX8_within 29 = .ok (.aload_n 1, 1) := by decide +kernel
theorem dX8_within_30 : decode cX8_within 30 = .ok (.aload_n 2, 1) := by decide +kernel
theorem dX8_within_31 : decode cX8_within 31 = .ok (.invokestatic 106, 3) := by decide +kernel
theorem dX8_within_34 : decode cX8_within 34 = .ok (.iload_n 3, 1) := by decide +kernel
theorem dX8_within_35 : decode cX8_within 35 = .ok (.if_icmp .ne 23, 3) := by decide +kernel
theorem dX8_within_38 : decode cX8_within 38 = .ok (.aload_n 1, 1) := by decide +kernel
theorem dX8_within_39 : decode cX8_within 39 = .ok (.aload_n 2, 1) := by decide +kernel
theorem dX8_within_40 : decode cX8_within 40 = .ok (.invokestatic 106, 3) := by decide +kernel
theorem dX8_within_43 : decode cX8_within 43 = .ok (.aload_n 0, 1) := by decide +kernel
theorem dX8_within_44 : decode cX8_within 44 = .ok (.getfield 50, 3) := by decide +kernel
theorem dX8_within_47 : decode cX8_within 47 = .ok (.aload_n 1, 1) := by decide +kernel
theorem dX8_within_48 : decode cX8_within 48 = .ok (.invokestatic 99, 3) := by decide +kernel
theorem dX8_within_51 : decode cX8_within 51 = .ok (.if_icmp .ne 7, 3) := by decide +kernel
theorem dX8_within_54 : decode cX8_within 54 = .ok (.iconst 0, 1) := by decide +kernel
theorem dX8_within_55 : decode cX8_within 55 = .ok (.goto 4, 3) := by decide +kernel
theorem dX8_within_58 : decode cX8_within 58 = .ok (.iconst 1, 1) := by decide +kernel
theorem dX8_within_59 : decode cX8_within 59 = .ok (.ireturn, 1) := by decide +kernel
set_option maxRecDepth 20000 in
theorem ggX8_sizeOfMeet_X8_joins : GoodIn wsX8_sizeOfMeet wsX8_joins := goodIn_r _ [5] (by decide +kernel) (by decide +kernel)
set_option maxRecDepth 20000 in
theorem gX8_sizeOfMeet_X8_joins : GoodIn wsX8_sizeOfMeet (va_wsS RX8 87 yX8_joins wsX8_joins) := goodIn_app (goodIn_of _ (by decide +kernel)) ggX8_sizeOfMeet_X8_joins
set_option maxRecDepth 20000 in
theorem ggX8_sizeOfMeet_X8_sizeOf : GoodIn wsX8_sizeOfMeet wsX8_sizeOf := goodIn_r _ [8] (by decide +kernel) (by decide +kernel)
set_option maxRecDepth 20000 in
theorem gX8_sizeOfMeet_X8_sizeOf : GoodIn wsX8_sizeOfMeet (va_wsS RX8 80 yX8_sizeOf wsX8_sizeOf) := goodIn_app (goodIn_of _ (by decide +kernel)) ggX8_sizeOfMeet_X8_sizeOf
theorem dX8_sizeOfMeet_0 : decode cX8_sizeOfMeet 0 = .ok (.aload_n 1, 1) := by decide +kernel
theorem dX8_sizeOfMeet_1 : decode cX8_sizeOfMeet 1 = .ok (.aload_n 2, 1) := by decide +kernel
theorem dX8_sizeOfMeet_2 : decode cX8_sizeOfMeet 2 = .ok (.iconst 1, 1) := by decide +kernel
theorem dX8_sizeOfMeet_3 : decode cX8_sizeOfMeet 3 = .ok (.aload_n 0, 1) := by decide +kernel
theorem dX8_sizeOfMeet_4 : decode cX8_sizeOfMeet 4 = .ok (.getfield 50, 3) := by decide +kernel
theorem dX8_sizeOfMeet_7 : decode cX8_sizeOfMeet 7 = .ok (.invokestatic 87, 3) := by decide +kernel
theorem dX8_sizeOfMeet_10 : decode cX8_sizeOfMeet 10 = .ok (.aload_n 0, 1) := by decide +kernel
theorem dX8_sizeOfMeet_11 : decode cX8_sizeOfMeet 11 = .ok (.getfield 50, 3) := by decide +kernel
theorem dX8_sizeOfMeet_14 : decode cX8_sizeOfMeet 14 = .ok (.invokestatic 80, 3) := by decide +kernel
theorem dX8_sizeOfMeet_17 : decode cX8_sizeOfMeet 17 = .ok (.ireturn, 1) := by decide +kernel
set_option maxRecDepth 20000 in
theorem ggX8_sizes_X8_three : GoodIn wsX8_sizes wsX8_three := goodIn_r _ [7, 8, 9, 10, 6, 11, 19, 20, 21, 22, 23, 24, 25, 26, 27, 28, 29, 30, 31, 32, 33, 34, 35, 36, 37] (by decide +kernel) (by decide +kernel)
set_option maxRecDepth 20000 in
theorem gX8_sizes_X8_three : GoodIn wsX8_sizes (wsV RX8 232 RX8 yX8_three wsX8_three) := goodIn_app (goodIn_of _ (by decide +kernel)) ggX8_sizes_X8_three
set_option maxRecDepth 20000 in
theorem ggX8_sizes_X8_sizeOf : GoodIn wsX8_sizes wsX8_sizeOf := goodIn_r _ [14] (by decide +kernel) (by decide +kernel)
set_option maxRecDepth 20000 in
theorem gX8_sizes_X8_sizeOf : GoodIn wsX8_sizes (va_wsS RX8 80 yX8_sizeOf wsX8_sizeOf) := goodIn_app (goodIn_of _ (by decide +kernel)) ggX8_sizes_X8_sizeOf
set_option maxRecDepth 20000 in
theorem ggX8_sizes_X8_sizeOfMeet : GoodIn wsX8_sizes wsX8_sizeOfMeet := goodIn_r _ [18, 2, 9, 10, 6, 11, 12, 13, 14, 19, 20, 21, 22, 23, 24, 25, 26, 27, 28, 29, 30, 31, 32, 33, 34, 35, 36, 37] (by decide +kernel) (by decide +kernel)
set_option maxRecDepth 20000 in
theorem gX8_sizes_X8_sizeOfMeet : GoodIn wsX8_sizes (wsV RX8 236 RX8 yX8_sizeOfMeet wsX8_sizeOfMeet) := goodIn_app (goodIn_of _ (by decide +kernel)) ggX8_sizes_X8_sizeOfMeet
set_option maxRecDepth 20000 in
theorem ggX8_sizes_X8_joins : GoodIn wsX8_sizes wsX8_joins := goodIn_r _ [11] (by decide +kernel) (by decide +kernel)
set_option maxRecDepth 20000 in
theorem gX8_sizes_X8_joins : GoodIn wsX8_sizes (va_wsS RX8 87 yX8_joins wsX8_joins) := goodIn_app (goodIn_of _ (by decide +kernel)) ggX8_sizes_X8_joins
theorem dX8_sizes_0 : decode cX8_sizes 0 = .ok (.aload_n 0, 1) := by decide +kernel
theorem dX8_sizes_1 : decode cX8_sizes 1 = .ok (.aload_n 1, 1) := by decide +kernel
theorem dX8_sizes_2 : decode cX8_sizes 2 = .ok (.aload_n 2, 1) := by decide +kernel
theorem dX8_sizes_3 : decode cX8_sizes 3 = .ok (.aload_n 3, 1) := by decide +kernel
theorem dX8_sizes_4 : decode cX8_sizes 4 = .ok (.iconst 0, 1) := by decide +kernel
theorem dX8_sizes_5 : decode cX8_sizes 5 = .ok (.iconst 0, 1) := by decide +kernel
theorem dX8_sizes_6 : decode cX8_sizes 6 = .ok (.iconst 0, 1) := by decide +kernel
theorem dX8_sizes_7 : decode cX8_sizes 7 = .ok (.aload_n 0, 1) := by decide +kernel
theorem dX8_sizes_8 : decode cX8_sizes 8 = .ok (.getfield 53, 3) := by decide +kernel
theorem dX8_sizes_11 : decode cX8_sizes 11 = .ok (.invokevirtual 232, 3) := by decide +kernel
theorem dX8_sizes_14 : decode cX8_sizes 14 = .ok (.aload_n 1, 1) := by decide +kernel
theorem dX8_sizes_15 : decode cX8_sizes 15 = .ok (.invokestatic 80, 3) := by decide +kernel
theorem dX8_sizes_18 : decode cX8_sizes 18 = .ok (.aload_n 2, 1) := by decide +kernel
theorem dX8_sizes_19 : decode cX8_sizes 19 = .ok (.invokestatic 80, 3) := by decide +kernel
theorem dX8_sizes_22 : decode cX8_sizes 22 = .ok (.iadd, 1) := by decide +kernel
theorem dX8_sizes_23 : decode cX8_sizes 23 = .ok (.aload_n 3, 1) := by decide +kernel
theorem dX8_sizes_24 : decode cX8_sizes 24 = .ok (.invokestatic 80, 3) := by decide +kernel
theorem dX8_sizes_27 : decode cX8_sizes 27 = .ok (.iadd, 1) := by decide +kernel
theorem dX8_sizes_28 : decode cX8_sizes 28 = .ok (.aload_n 0, 1) := by decide +kernel
theorem dX8_sizes_29 : decode cX8_sizes 29 = .ok (.aload_n 1, 1) := by decide +kernel
theorem dX8_sizes_30 : decode cX8_sizes 30 = .ok (.aload_n 2, 1) := by decide +kernel
theorem dX8_sizes_31 : decode cX8_sizes 31 = .ok (.invokevirtual 236, 3) := by decide +kernel
theorem dX8_sizes_34 : decode cX8_sizes 34 = .ok (.isub, 1) := by decide +kernel
theorem dX8_sizes_35 : decode cX8_sizes 35 = .ok (.aload_n 0, 1) := by decide +kernel
theorem dX8_sizes_36 : decode cX8_sizes 36 = .ok (.aload_n 1, 1) := by decide +kernel
theorem dX8_sizes_37 : decode cX8_sizes 37 = .ok (.aload_n 3, 1) := by decide +kernel
theorem dX8_sizes_38 : decode cX8_sizes 38 = .ok (.invokevirtual 236, 3) := by decide +kernel
theorem dX8_sizes_41 : decode cX8_sizes 41 = .ok (.isub, 1) := by decide +kernel
theorem dX8_sizes_42 : decode cX8_sizes 42 = .ok (.aload_n 0, 1) := by decide +kernel
theorem dX8_sizes_43 : decode cX8_sizes 43 = .ok (.aload_n 2, 1) := by decide +kernel
theorem dX8_sizes_44 : decode cX8_sizes 44 = .ok (.aload_n 3, 1) := by decide +kernel
theorem dX8_sizes_45 : decode cX8_sizes 45 = .ok (.invokevirtual 236, 3) := by decide +kernel
theorem dX8_sizes_48 : decode cX8_sizes 48 = .ok (.isub, 1) := by decide +kernel
theorem dX8_sizes_49 : decode cX8_sizes 49 = .ok (.istore 4, 2) := by decide +kernel
theorem dX8_sizes_51 : decode cX8_sizes 51 = .ok (.aload_n 1, 1) := by decide +kernel
theorem dX8_sizes_52 : decode cX8_sizes 52 = .ok (.aload_n 2, 1) := by decide +kernel
theorem dX8_sizes_53 : decode cX8_sizes 53 = .ok (.iconst 1, 1) := by decide +kernel
theorem dX8_sizes_54 : decode cX8_sizes 54 = .ok (.aload_n 0, 1) := by decide +kernel
theorem dX8_sizes_55 : decode cX8_sizes 55 = .ok (.getfield 50, 3) := by decide +kernel
theorem dX8_sizes_58 : decode cX8_sizes 58 = .ok (.invokestatic 87, 3) := by decide +kernel
theorem dX8_sizes_61 : decode cX8_sizes 61 = .ok (.aload_n 0, 1) := by decide +kernel
theorem dX8_sizes_62 : decode cX8_sizes 62 = .ok (.getfield 50, 3) := by decide +kernel
theorem dX8_sizes_65 : decode cX8_sizes 65 = .ok (.aload_n 3, 1) := by decide +kernel
theorem dX8_sizes_66 : decode cX8_sizes 66 = .ok (.iconst 1, 1) := by decide +kernel
theorem dX8_sizes_67 : decode cX8_sizes 67 = .ok (.aload_n 0, 1) := by decide +kernel
theorem dX8_sizes_68 : decode cX8_sizes 68 = .ok (.getfield 50, 3) := by decide +kernel
theorem dX8_sizes_71 : decode cX8_sizes 71 = .ok (.invokestatic 87, 3) := by decide +kernel
theorem dX8_sizes_74 : decode cX8_sizes 74 = .ok (.aload_n 0, 1) := by decide +kernel
theorem dX8_sizes_75 : decode cX8_sizes 75 = .ok (.getfield 53, 3) := by decide +kernel
theorem dX8_sizes_78 : decode cX8_sizes 78 = .ok (.invokestatic 80, 3) := by decide +kernel
theorem dX8_sizes_81 : decode cX8_sizes 81 = .ok (.iload 4, 2) := by decide +kernel
theorem dX8_sizes_83 : decode cX8_sizes 83 = .ok (.aload_n 0, 1) := by decide +kernel
theorem dX8_sizes_84 : decode cX8_sizes 84 = .ok (.getfield 50, 3) := by decide +kernel
theorem dX8_sizes_87 : decode cX8_sizes 87 = .ok (.invokestatic 80, 3) := by decide +kernel
theorem dX8_sizes_90 : decode cX8_sizes 90 = .ok (.iadd, 1) := by decide +kernel
theorem dX8_sizes_91 : decode cX8_sizes 91 = .ok (.if_icmp .ne 7, 3) := by decide +kernel
theorem dX8_sizes_94 : decode cX8_sizes 94 = .ok (.iconst 0, 1) := by decide +kernel
theorem dX8_sizes_95 : decode cX8_sizes 95 = .ok (.goto 4, 3) := by decide +kernel
theorem dX8_sizes_98 : decode cX8_sizes 98 = .ok (.iconst 1, 1) := by decide +kernel
theorem dX8_sizes_99 : decode cX8_sizes 99 = .ok (.ireturn, 1) := by decide +kernel
set_option maxRecDepth 20000 in
theorem ggX8_lawErrors_X8_isSet : GoodIn wsX8_lawErrors wsX8_isSet := goodIn_r _ [8, 9, 10, 7, 11] (by decide +kernel) (by decide +kernel)
set_option maxRecDepth 20000 in
theorem gX8_lawErrors_X8_isSet : GoodIn wsX8_lawErrors (va_wsS RX8 65 yX8_isSet wsX8_isSet) := goodIn_app (goodIn_of _ (by decide +kernel)) ggX8_lawErrors_X8_isSet
set_option maxRecDepth 20000 in
theorem ggX8_lawErrors_X8_passes : GoodIn wsX8_lawErrors wsX8_passes := goodIn_r _ [15, 16, 63, 64, 65, 66, 67, 68, 69, 70, 71, 72, 73, 74, 75, 76, 77, 78, 79, 80, 81] (by decide +kernel) (by decide +kernel)
set_option maxRecDepth 20000 in
theorem gX8_lawErrors_X8_passes : GoodIn wsX8_lawErrors (wsV RX8 72 RX8 yX8_passes wsX8_passes) := goodIn_app (goodIn_of _ (by decide +kernel)) ggX8_lawErrors_X8_passes
set_option maxRecDepth 20000 in
theorem ggX8_lawErrors_X8_ordersAndBrackets : GoodIn wsX8_lawErrors wsX8_ordersAndBrackets := goodIn_r _ [20, 2, 3, 21, 22, 7, 23, 24, 25, 26, 27, 28, 29, 30, 31, 32, 33, 34, 35, 36, 37, 4, 38, 39, 40, 63, 64, 65, 66, 67, 68, 69, 70, 71, 72, 73, 74, 75, 76, 77, 78, 79, 80, 81] (by decide +kernel) (by decide +kernel)
set_option maxRecDepth 20000 in
theorem gX8_lawErrors_X8_ordersAndBrackets : GoodIn wsX8_lawErrors (wsV RX8 239 RX8 yX8_ordersAndBrackets wsX8_ordersAndBrackets) := goodIn_app (goodIn_of _ (by decide +kernel)) ggX8_lawErrors_X8_ordersAndBrackets
set_option maxRecDepth 20000 in
theorem ggX8_lawErrors_X8_parts : GoodIn wsX8_lawErrors wsX8_parts := goodIn_r _ [44, 2, 3, 4, 34, 35, 36, 7, 37, 21, 22, 23, 24, 25, 26, 27, 28, 29, 30, 31, 32, 33, 63, 64, 65, 66, 67, 68, 69, 70, 71, 72, 73, 74, 75, 76, 77, 78, 79, 80, 81] (by decide +kernel) (by decide +kernel)
set_option maxRecDepth 20000 in
theorem gX8_lawErrors_X8_parts : GoodIn wsX8_lawErrors (wsV RX8 243 RX8 yX8_parts wsX8_parts) := goodIn_app (goodIn_of _ (by decide +kernel)) ggX8_lawErrors_X8_parts
set_option maxRecDepth 20000 in
theorem ggX8_lawErrors_X8_three : GoodIn wsX8_lawErrors wsX8_three := goodIn_r _ [37, 4, 21, 22, 7, 23, 63, 64, 65, 66, 67, 68, 69, 70, 71, 72, 73, 74, 75, 76, 77, 78, 79, 80, 81] (by decide +kernel) (by decide +kernel)
set_option maxRecDepth 20000 in
theorem gX8_lawErrors_X8_three : GoodIn wsX8_lawErrors (wsV RX8 232 RX8 yX8_three wsX8_three) := goodIn_app (goodIn_of _ (by decide +kernel)) ggX8_lawErrors_X8_three
set_option maxRecDepth 20000 in
theorem ggX8_lawErrors_X8_joins : GoodIn wsX8_lawErrors wsX8_joins := goodIn_r _ [23] (by decide +kernel) (by decide +kernel)
set_option maxRecDepth 20000 in
theorem gX8_lawErrors_X8_joins : GoodIn wsX8_lawErrors (va_wsS RX8 87 yX8_joins wsX8_joins) := goodIn_app (goodIn_of _ (by decide +kernel)) ggX8_lawErrors_X8_joins
set_option maxRecDepth 20000 in
theorem ggX8_lawErrors_X8_others : GoodIn wsX8_lawErrors wsX8_others := goodIn_r _ [27, 2, 3, 28, 29, 7, 30, 31, 32, 33, 63, 64, 65, 66, 67, 68, 69, 70, 71, 72, 73, 74, 75, 76, 77, 78, 79, 80, 81] (by decide +kernel) (by decide +kernel)
set_option maxRecDepth 20000 in
theorem gX8_lawErrors_X8_others : GoodIn wsX8_lawErrors (wsV RX8 229 RX8 yX8_others wsX8_others) := goodIn_app (goodIn_of _ (by decide +kernel)) ggX8_lawErrors_X8_others
set_option maxRecDepth 20000 in
theorem ggX8_lawErrors_X8_within : GoodIn wsX8_lawErrors wsX8_within := goodIn_r _ [48, 2, 21, 22, 7, 23, 28, 29, 30, 31, 32, 33, 49, 50, 51, 63, 64, 65, 66, 67, 68, 69, 70, 71, 72, 73, 74, 75, 76, 77, 78, 79, 80, 81] (by decide +kernel) (by decide +kernel)
set_option maxRecDepth 20000 in
theorem gX8_lawErrors_X8_within : GoodIn wsX8_lawErrors (wsV RX8 247 RX8 yX8_within wsX8_within) := goodIn_app (goodIn_of _ (by decide +kernel)) ggX8_lawErrors_X8_within
set_option maxRecDepth 20000 in
theorem ggX8_lawErrors_X8_sizes : GoodIn wsX8_lawErrors wsX8_sizes := goodIn_r _ [55, 3, 2, 34, 35, 36, 7, 37, 4, 21, 22, 23, 56, 57, 58, 59, 60, 61, 62, 63, 64, 65, 66, 67, 68, 69, 70, 71, 72, 73, 74, 75, 76, 77, 78, 79, 80, 81] (by decide +kernel) (by decide +kernel)
set_option maxRecDepth 20000 in
theorem gX8_lawErrors_X8_sizes : GoodIn wsX8_lawErrors (wsV RX8 250 RX8 yX8_sizes wsX8_sizes) := goodIn_app (goodIn_of _ (by decide +kernel)) ggX8_lawErrors_X8_sizes
theorem dX8_lawErrors_0 : decode cX8_lawErrors 0 = .ok (.aload_n 0, 1) := by decide +kernel
theorem dX8_lawErrors_1 : decode cX8_lawErrors 1 = .ok (.iload_n 1, 1) := by decide +kernel
theorem dX8_lawErrors_2 : decode cX8_lawErrors 2 = .ok (.invokestatic 65, 3) := by decide +kernel
theorem dX8_lawErrors_5 : decode cX8_lawErrors 5 = .ok (.ifCond .eq 21, 3) := by decide +kernel
theorem dX8_lawErrors_8 : decode cX8_lawErrors 8 = .ok (.iload_n 2, 1) := by decide +kernel
theorem dX8_lawErrors_9 : decode cX8_lawErrors 9 = .ok (.invokestatic 65, 3) := by decide +kernel
theorem dX8_lawErrors_12 : decode cX8_lawErrors 12 = .ok (.ifCond .eq 14, 3) := by decide +kernel
theorem dX8_lawErrors_15 : decode cX8_lawErrors 15 = .ok (.iload_n 3, 1) := by decide +kernel
theorem dX8_lawErrors_16 : decode cX8_lawErrors 16 = .ok (.invokestatic 65, 3) := by decide +kernel
theorem dX8_lawErrors_19 : decode cX8_lawErrors 19 = .ok (.ifCond .eq 7, 3) := by decide +kernel
theorem dX8_lawErrors_22 : decode cX8_lawErrors 22 = .ok (.iconst 1, 1) := by decide +kernel
theorem dX8_lawErrors_23 : decode cX8_lawErrors 23 = .ok (.goto 4, 3) := by decide +kernel
theorem dX8_lawErrors_26 : decode cX8_lawErrors 26 = .ok (.iconst 0, 1) := by decide +kernel
theorem dX8_lawErrors_27 : decode cX8_lawErrors 27 = .ok (.iconst 1, 1) := by decide +kernel
theorem dX8_lawErrors_28 : decode cX8_lawErrors 28 = .ok (.invokevirtual 72, 3) := by decide +kernel
theorem dX8_lawErrors_31 : decode cX8_lawErrors 31 = .ok (.ifCond .ne 5, 3) := by decide +kernel
theorem dX8_lawErrors_34 : decode cX8_lawErrors 34 = .ok (.iconst 0, 1) := by decide +kernel
theorem dX8_lawErrors_35 : decode cX8_lawErrors 35 = .ok (.ireturn, 1) := by decide +kernel
theorem dX8_lawErrors_36 : decode cX8_lawErrors 36 = .ok (.aload_n 0, 1) := by decide +kernel
theorem dX8_lawErrors_37 : decode cX8_lawErrors 37 = .ok (.getfield 27, 3) := by decide +kernel
theorem dX8_lawErrors_40 : decode cX8_lawErrors 40 = .ok (.iload_n 1, 1) := by decide +kernel
theorem dX8_lawErrors_41 : decode cX8_lawErrors 41 = .ok (.aaload, 1) := by decide +kernel
theorem dX8_lawErrors_42 : decode cX8_lawErrors 42 = .ok (.astore 4, 2) := by decide +kernel
theorem dX8_lawErrors_44 : decode cX8_lawErrors 44 = .ok (.aload_n 0, 1) := by decide +kernel
theorem dX8_lawErrors_45 : decode cX8_lawErrors 45 = .ok (.getfield 27, 3) := by decide +kernel
theorem dX8_lawErrors_48 : decode cX8_lawErrors 48 = .ok (.iload_n 2, 1) := by decide +kernel
theorem dX8_lawErrors_49 : decode cX8_lawErrors 49 = .ok (.aaload, 1) := by decide +kernel
theorem dX8_lawErrors_50 : decode cX8_lawErrors 50 = .ok (.astore 5, 2) := by decide +kernel
theorem dX8_lawErrors_52 : decode cX8_lawErrors 52 = .ok (.aload_n 0, 1) := by decide +kernel
theorem dX8_lawErrors_53 : decode cX8_lawErrors 53 = .ok (.getfield 27, 3) := by decide +kernel
theorem dX8_lawErrors_56 : decode cX8_lawErrors 56 = .ok (.iload_n 3, 1) := by decide +kernel
theorem dX8_lawErrors_57 : decode cX8_lawErrors 57 = .ok (.aaload, 1) := by decide +kernel
theorem dX8_lawErrors_58 : decode cX8_lawErrors 58 = .ok (.astore 6, 2) := by decide +kernel
theorem dX8_lawErrors_60 : decode cX8_lawErrors 60 = .ok (.aload_n 0, 1) := by decide +kernel
theorem dX8_lawErrors_61 : decode cX8_lawErrors 61 = .ok (.aload 4, 2) := by decide +kernel
theorem dX8_lawErrors_63 : decode cX8_lawErrors 63 = .ok (.aload 5, 2) := by decide +kernel
theorem dX8_lawErrors_65 : decode cX8_lawErrors 65 = .ok (.aload 6, 2) := by decide +kernel
theorem dX8_lawErrors_67 : decode cX8_lawErrors 67 = .ok (.iconst 0, 1) := by decide +kernel
theorem dX8_lawErrors_68 : decode cX8_lawErrors 68 = .ok (.invokevirtual 239, 3) := by decide +kernel
theorem dX8_lawErrors_71 : decode cX8_lawErrors 71 = .ok (.aload_n 0, 1) := by decide +kernel
theorem dX8_lawErrors_72 : decode cX8_lawErrors 72 = .ok (.aload 4, 2) := by decide +kernel
theorem dX8_lawErrors_74 : decode cX8_lawErrors 74 = .ok (.aload 5, 2) := by decide +kernel
theorem dX8_lawErrors_76 : decode cX8_lawErrors 76 = .ok (.aload 6, 2) := by decide +kernel
theorem dX8_lawErrors_78 : decode cX8_lawErrors 78 = .ok (.iconst 1, 1) := by decide +kernel
theorem dX8_lawErrors_79 : decode cX8_lawErrors 79 = .ok (.invokevirtual 239, 3) := by decide +kernel
theorem dX8_lawErrors_82 : decode cX8_lawErrors 82 = .ok (.iadd, 1) := by decide +kernel
theorem dX8_lawErrors_83 : decode cX8_lawErrors 83 = .ok (.istore 7, 2) := by decide +kernel
theorem dX8_lawErrors_85 : decode cX8_lawErrors 85 = .ok (.iload 7, 2) := by decide +kernel
theorem dX8_lawErrors_87 : decode cX8_lawErrors 87 = .ok (.aload_n 0, 1) := by decide +kernel
theorem dX8_lawErrors_88 : decode cX8_lawErrors 88 = .ok (.aload 4, 2) := by decide +kernel
theorem dX8_lawErrors_90 : decode cX8_lawErrors 90 = .ok (.aload 5, 2) := by decide +kernel
theorem dX8_lawErrors_92 : decode cX8_lawErrors 92 = .ok (.aload 6, 2) := by decide +kernel
theorem dX8_lawErrors_94 : decode cX8_lawErrors 94 = .ok (.iconst 1, 1) := by decide +kernel
theorem dX8_lawErrors_95 : decode cX8_lawErrors 95 = .ok (.iconst 0, 1) := by decide +kernel
theorem dX8_lawErrors_96 : decode cX8_lawErrors 96 = .ok (.invokevirtual 243, 3) := by decide +kernel
theorem dX8_lawErrors_99 : decode cX8_lawErrors 99 = .ok (.aload_n 0, 1) := by decide +kernel
theorem dX8_lawErrors_100 : decode cX8_lawErrors 100 = .ok (.aload 4, 2) := by decide +kernel
theorem dX8_lawErrors_102 : decode cX8_lawErrors 102 = .ok (.aload 5, 2) := by decide +kernel
theorem dX8_lawErrors_104 : decode cX8_lawErrors 104 = .ok (.aload 6, 2) := by decide +kernel
theorem dX8_lawErrors_106 : decode cX8_lawErrors 106 = .ok (.iconst 0, 1) := by decide +kernel
theorem dX8_lawErrors_107 : decode cX8_lawErrors 107 = .ok (.iconst 1, 1) := by decide +kernel
theorem dX8_lawErrors_108 : decode cX8_lawErrors 108 = .ok (.invokevirtual 243, 3) := by decide +kernel
theorem dX8_lawErrors_111 : decode cX8_lawErrors 111 = .ok (.iadd, 1) := by decide +kernel
theorem dX8_lawErrors_112 : decode cX8_lawErrors 112 = .ok (.iadd, 1) := by decide +kernel
theorem dX8_lawErrors_113 : decode cX8_lawErrors 113 = .ok (.istore 7, 2) := by decide +kernel
theorem dX8_lawErrors_115 : decode cX8_lawErrors 115 = .ok (.aload_n 0, 1) := by decide +kernel
theorem dX8_lawErrors_116 : decode cX8_lawErrors 116 = .ok (.aload 4, 2) := by decide +kernel
theorem dX8_lawErrors_118 : decode cX8_lawErrors 118 = .ok (.aload 5, 2) := by decide +kernel
theorem dX8_lawErrors_120 : decode cX8_lawErrors 120 = .ok (.aload 6, 2) := by decide +kernel
theorem dX8_lawErrors_122 : decode cX8_lawErrors 122 = .ok (.iconst 0, 1) := by decide +kernel
theorem dX8_lawErrors_123 : decode cX8_lawErrors 123 = .ok (.iconst 2, 1) := by decide +kernel
theorem dX8_lawErrors_124 : decode cX8_lawErrors 124 = .ok (.iconst 1, 1) := by decide +kernel
theorem dX8_lawErrors_125 : decode cX8_lawErrors 125 = .ok (.aload_n 0, 1) := by decide +kernel
theorem dX8_lawErrors_126 : decode cX8_lawErrors 126 = .ok (.getfield 50, 3) := by decide +kernel
theorem dX8_lawErrors_129 : decode cX8_lawErrors 129 = .ok (.invokevirtual 232, 3) := by decide +kernel
theorem dX8_lawErrors_132 : decode cX8_lawErrors 132 = .ok (.aload 4, 2) := by decide +kernel
theorem dX8_lawErrors_134 : decode cX8_lawErrors 134 = .ok (.aload 5, 2) := by decide +kernel
theorem dX8_lawErrors_136 : decode cX8_lawErrors 136 = .ok (.iconst 2, 1) := by decide +kernel
theorem dX8_lawErrors_137 : decode cX8_lawErrors 137 = .ok (.aload_n 0, 1) := by decide +kernel
theorem dX8_lawErrors_138 : decode cX8_lawErrors 138 = .ok (.getfield 53, 3) := by decide +kernel
theorem dX8_lawErrors_141 : decode cX8_lawErrors 141 = .ok (.invokestatic 87, 3) := by decide +kernel
theorem dX8_lawErrors_144 : decode cX8_lawErrors 144 = .ok (.aload 4, 2) := by decide +kernel
theorem dX8_lawErrors_146 : decode cX8_lawErrors 146 = .ok (.aload 6, 2) := by decide +kernel
theorem dX8_lawErrors_148 : decode cX8_lawErrors 148 = .ok (.iconst 2, 1) := by decide +kernel
theorem dX8_lawErrors_149 : decode cX8_lawErrors 149 = .ok (.aload_n 0, 1) := by decide +kernel
theorem dX8_lawErrors_150 : decode cX8_lawErrors 150 = .ok (.getfield 56, 3) := by decide +kernel
theorem dX8_lawErrors_153 : decode cX8_lawErrors 153 = .ok (.invokestatic 87, 3) := by decide +kernel
theorem dX8_lawErrors_156 : decode cX8_lawErrors 156 = .ok (.aload_n 0, 1) := by decide +kernel
theorem dX8_lawErrors_157 : decode cX8_lawErrors 157 = .ok (.getfield 53, 3) := by decide +kernel
theorem dX8_lawErrors_160 : decode cX8_lawErrors 160 = .ok (.aload_n 0, 1) := by decide +kernel
theorem dX8_lawErrors_161 : decode cX8_lawErrors 161 = .ok (.getfield 56, 3) := by decide +kernel
theorem dX8_lawErrors_164 : decode cX8_lawErrors 164 = .ok (.iconst 1, 1) := by decide +kernel
theorem dX8_lawErrors_165 : decode cX8_lawErrors 165 = .ok (.aload_n 0, 1) := by decide +kernel
theorem dX8_lawErrors_166 : decode cX8_lawErrors 166 = .ok (.getfield 53, 3) := by decide +kernel
theorem dX8_lawErrors_169 : decode cX8_lawErrors 169 = .ok (.invokestatic 87, 3) := by decide +kernel
theorem dX8_lawErrors_172 : decode cX8_lawErrors 172 = .ok (.iload 7, 2) := by decide +kernel
theorem dX8_lawErrors_174 : decode cX8_lawErrors 174 = .ok (.aload_n 0, 1) := by decide +kernel
theorem dX8_lawErrors_175 : decode cX8_lawErrors 175 = .ok (.invokevirtual 229, 3) := by decide +kernel
theorem dX8_lawErrors_178 : decode cX8_lawErrors 178 = .ok (.iadd, 1) := by decide +kernel
theorem dX8_lawErrors_179 : decode cX8_lawErrors 179 = .ok (.aload_n 0, 1) := by decide +kernel
theorem dX8_lawErrors_180 : decode cX8_lawErrors 180 = .ok (.aload 4, 2) := by decide +kernel
theorem dX8_lawErrors_182 : decode cX8_lawErrors 182 = .ok (.aload 5, 2) := by decide +kernel
theorem dX8_lawErrors_184 : decode cX8_lawErrors 184 = .ok (.invokevirtual 247, 3) := by decide +kernel
theorem dX8_lawErrors_187 : decode cX8_lawErrors 187 = .ok (.iadd, 1) := by decide +kernel
theorem dX8_lawErrors_188 : decode cX8_lawErrors 188 = .ok (.aload_n 0, 1) := by decide +kernel
theorem dX8_lawErrors_189 : decode cX8_lawErrors 189 = .ok (.aload 4, 2) := by decide +kernel
theorem dX8_lawErrors_191 : decode cX8_lawErrors 191 = .ok (.aload 5, 2) := by decide +kernel
theorem dX8_lawErrors_193 : decode cX8_lawErrors 193 = .ok (.aload 6, 2) := by decide +kernel
theorem dX8_lawErrors_195 : decode cX8_lawErrors 195 = .ok (.invokevirtual 250, 3) := by decide +kernel
theorem dX8_lawErrors_198 : decode cX8_lawErrors 198 = .ok (.iadd, 1) := by decide +kernel
theorem dX8_lawErrors_199 : decode cX8_lawErrors 199 = .ok (.ireturn, 1) := by decide +kernel
set_option maxRecDepth 20000 in
theorem ggX8_familyErrors_X8_unites : GoodIn wsX8_familyErrors wsX8_unites := goodIn_r _ [9, 2, 3, 10, 11, 8, 12, 13, 14, 15, 16, 17, 18, 19, 20, 5, 6, 7, 21, 22, 23, 24, 25, 26, 27, 28, 29, 30, 31, 32, 33, 34, 35, 36, 37, 38, 39, 40, 41, 42, 43, 44, 45] (by decide +kernel) (by decide +kernel)
set_option maxRecDepth 20000 in
theorem gX8_familyErrors_X8_unites : GoodIn wsX8_familyErrors (wsV RX8 132 RX8 yX8_unites wsX8_unites) := goodIn_app (goodIn_of _ (by decide +kernel)) ggX8_familyErrors_X8_unites
set_option maxRecDepth 20000 in
theorem ggX8_familyErrors_X8_areSame : GoodIn wsX8_familyErrors wsX8_areSame := goodIn_r _ [23, 24, 25, 8, 26] (by decide +kernel) (by decide +kernel)
set_option maxRecDepth 20000 in
theorem gX8_familyErrors_X8_areSame : GoodIn wsX8_familyErrors (va_wsS RX8 99 yX8_areSame wsX8_areSame) := goodIn_app (goodIn_of _ (by decide +kernel)) ggX8_familyErrors_X8_areSame
set_option maxRecDepth 20000 in
theorem ggX8_familyErrors_X8_isPrime : GoodIn wsX8_familyErrors wsX8_isPrime := goodIn_r _ [19, 3, 20, 5, 6, 7, 8, 21, 22, 23, 24, 25, 26, 9, 2, 10, 11, 12, 13, 14, 15, 16, 17, 18, 27, 28, 29, 30, 31, 32, 33, 34, 35, 36, 37, 38, 39, 40, 41, 42, 43, 44, 45] (by decide +kernel) (by decide +kernel)
set_option maxRecDepth 20000 in
theorem gX8_familyErrors_X8_isPrime : GoodIn wsX8_familyErrors (wsV RX8 129 RX8 yX8_isPrime wsX8_isPrime) := goodIn_app (goodIn_of _ (by decide +kernel)) ggX8_familyErrors_X8_isPrime
set_option maxRecDepth 20000 in
theorem ggX8_familyErrors_X8_lies : GoodIn wsX8_familyErrors wsX8_lies := goodIn_r _ [15] (by decide +kernel) (by decide +kernel)
set_option maxRecDepth 20000 in
theorem gX8_familyErrors_X8_lies : GoodIn wsX8_familyErrors (va_wsS RX8 106 yX8_lies wsX8_lies) := goodIn_app (goodIn_of _ (by decide +kernel)) ggX8_familyErrors_X8_lies
theorem dX8_familyErrors_0 : decode cX8_familyErrors 0 = .ok (.aload_n 0, 1) := by decide +kernel
theorem dX8_familyErrors_1 : decode cX8_familyErrors 1 = .ok (.iconst 0, 1) := by decide +kernel
theorem dX8_familyErrors_2 : decode cX8_familyErrors 2 = .ok (.putfield 3, 3) := by decide +kernel
theorem dX8_familyErrors_5 : decode cX8_familyErrors 5 = .ok (.iconst 0, 1) := by decide +kernel
theorem dX8_familyErrors_6 : decode cX8_familyErrors 6 = .ok (.istore_n 1, 1) := by decide +kernel
theorem dX8_familyErrors_7 : decode cX8_familyErrors 7 = .ok (.iconst 0, 1) := by decide +kernel
theorem dX8_familyErrors_8 : decode cX8_familyErrors 8 = .ok (.istore_n 2, 1) := by decide +kernel
theorem dX8_familyErrors_9 : decode cX8_familyErrors 9 = .ok (.iload_n 2, 1) := by decide +kernel
theorem dX8_familyErrors_10 : decode cX8_familyErrors 10 = .ok (.aload_n 0, 1) := by decide +kernel
theorem dX8_familyErrors_11 : decode cX8_familyErrors 11 = .ok (.getfield 59, 3) := by decide +kernel
theorem dX8_familyErrors_14 : decode cX8_familyErrors 14 = .ok (.if_icmp .ge 150, 3) := by decide +kernel
theorem dX8_familyErrors_17 : decode cX8_familyErrors 17 = .ok (.aload_n 0, 1) := by decide +kernel
theorem dX8_familyErrors_18 : decode cX8_familyErrors 18 = .ok (.aload_n 0, 1) := by decide +kernel
theorem dX8_familyErrors_19 : decode cX8_familyErrors 19 = .ok (.getfield 34, 3) := by decide +kernel
theorem dX8_familyErrors_22 : decode cX8_familyErrors 22 = .ok (.iload_n 2, 1) := by decide +kernel
theorem dX8_familyErrors_23 : decode cX8_familyErrors 23 = .ok (.aaload, 1) := by decide +kernel
theorem dX8_familyErrors_24 : decode cX8_familyErrors 24 = .ok (.iconst (-1), 1) := by decide +kernel
theorem dX8_familyErrors_25 : decode cX8_familyErrors 25 = .ok (.iconst 1, 1) := by decide +kernel
theorem dX8_familyErrors_26 : decode cX8_familyErrors 26 = .ok (.aload_n 0, 1) := by decide +kernel
theorem dX8_familyErrors_27 : decode cX8_familyErrors 27 = .ok (.getfield 50, 3) := by decide +kernel
theorem dX8_familyErrors_30 : decode cX8_familyErrors 30 = .ok (.invokevirtual 132, 3) := by decide +kernel
theorem dX8_familyErrors_33 : decode cX8_familyErrors 33 = .ok (.iload_n 1, 1) := by decide +kernel
theorem dX8_familyErrors_34 : decode cX8_familyErrors 34 = .ok (.aload_n 0, 1) := by decide +kernel
theorem dX8_familyErrors_35 : decode cX8_familyErrors 35 = .ok (.getfield 50, 3) := by decide +kernel
theorem dX8_familyErrors_38 : decode cX8_familyErrors 38 = .ok (.aload_n 0, 1) := by decide +kernel
theorem dX8_familyErrors_39 : decode cX8_familyErrors 39 = .ok (.getfield 34, 3) := by decide +kernel
theorem dX8_familyErrors_42 : decode cX8_familyErrors 42 = .ok (.iload_n 2, 1) := by decide +kernel
theorem dX8_familyErrors_43 : decode cX8_familyErrors 43 = .ok (.aaload, 1) := by decide +kernel
theorem dX8_familyErrors_44 : decode cX8_familyErrors 44 = .ok (.invokestatic 99, 3) := by decide +kernel
theorem dX8_familyErrors_47 : decode cX8_familyErrors 47 = .ok (.ifCond .eq 7, 3) := by decide +kernel
theorem dX8_familyErrors_50 : decode cX8_familyErrors 50 = .ok (.iconst 0, 1) := by decide +kernel
theorem dX8_familyErrors_51 : decode cX8_familyErrors 51 = .ok (.goto 4, 3) := by decide +kernel
theorem dX8_familyErrors_54 : decode cX8_familyErrors 54 = .ok (.iconst 1, 1) := by decide +kernel
theorem dX8_familyErrors_55 : decode cX8_familyErrors 55 = .ok (.iadd, 1) := by decide +kernel
theorem dX8_familyErrors_56 : decode cX8_familyErrors 56 = .ok (.istore_n 1, 1) := by decide +kernel
theorem dX8_familyErrors_57 : decode cX8_familyErrors 57 = .ok (.iconst 0, 1) := by decide +kernel
theorem dX8_familyErrors_58 : decode cX8_familyErrors 58 = .ok (.istore_n 3, 1) := by decide +kernel
theorem dX8_familyErrors_59 : decode cX8_familyErrors 59 = .ok (.iload_n 3, 1) := by decide +kernel
theorem dX8_familyErrors_60 : decode cX8_familyErrors 60 = .ok (.iload_n 2, 1) := by decide +kernel
theorem dX8_familyErrors_61 : decode cX8_familyErrors 61 = .ok (.if_icmp .ge 97, 3) := by decide +kernel
theorem dX8_familyErrors_64 : decode cX8_familyErrors 64 = .ok (.iconst 0, 1) := by decide +kernel
theorem dX8_familyErrors_65 : decode cX8_familyErrors 65 = .ok (.istore 4, 2) := by decide +kernel
theorem dX8_familyErrors_67 : decode cX8_familyErrors 67 = .ok (.iconst 0, 1) := by decide +kernel
theorem dX8_familyErrors_68 : decode cX8_familyErrors 68 = .ok (.istore 5, 2) := by decide +kernel
theorem dX8_familyErrors_70 : decode cX8_familyErrors 70 = .ok (.iload 5, 2) := by decide +kernel
theorem dX8_familyErrors_72 : decode cX8_familyErrors 72 = .ok (.aload_n 0, 1) := by decide +kernel
theorem dX8_familyErrors_73 : decode cX8_familyErrors 73 = .ok (.getfield 59, 3) := by decide +kernel
theorem dX8_familyErrors_76 : decode cX8_familyErrors 76 = .ok (.if_icmp .ge 63, 3) := by decide +kernel
theorem dX8_familyErrors_79 : decode cX8_familyErrors 79 = .ok (.iload 4, 2) := by decide +kernel
theorem dX8_familyErrors_81 : decode cX8_familyErrors 81 = .ok (.aload_n 0, 1) := by decide +kernel
theorem dX8_familyErrors_82 : decode cX8_familyErrors 82 = .ok (.iload 5, 2) := by decide +kernel
theorem dX8_familyErrors_84 : decode cX8_familyErrors 84 = .ok (.invokevirtual 129, 3) := by decide +kernel
theorem dX8_familyErrors_87 : decode cX8_familyErrors 87 = .ok (.ifCond .eq 42, 3) := by decide +kernel
theorem dX8_familyErrors_90 : decode cX8_familyErrors 90 = .ok (.aload_n 0, 1) := by decide +kernel
theorem dX8_familyErrors_91 : decode cX8_familyErrors 91 = .ok (.getfield 34, 3) := by decide +kernel
theorem dX8_familyErrors_94 : decode cX8_familyErrors 94 = .ok (.iload 5, 2) := by decide +kernel
theorem dX8_familyErrors_96 : decode cX8_familyErrors 96 = .ok (.aaload, 1) := by decide +kernel
theorem dX8_familyErrors_97 : decode cX8_familyErrors 97 = .ok (.aload_n 0, 1) := by decide +kernel
theorem dX8_familyErrors_98 : decode cX8_familyErrors 98 = .ok (.getfield 34, 3) := by decide +kernel
theorem dX8_familyErrors_101 : decode cX8_familyErrors 101 = .ok (.iload_n 2, 1) := by decide +kernel
theorem dX8_familyErrors_102 : decode cX8_familyErrors 102 = .ok (.aaload, 1) := by decide +kernel
theorem dX8_familyErrors_103 : decode cX8_familyErrors 103 = .ok (.invokestatic 106, 3) := by decide +kernel
theorem dX8_familyErrors_106 : decode cX8_familyErrors 106 = .ok (.aload_n 0, 1) := by decide +kernel
theorem dX8_familyErrors_107 : decode cX8_familyErrors 107 = .ok (.getfield 34, 3) := by decide +kernel
theorem dX8_familyErrors_110 : decode cX8_familyErrors 110 = .ok (.iload 5, 2) := by decide +kernel
theorem dX8_familyErrors_112 : decode cX8_familyErrors 112 = .ok (.aaload, 1) := by decide +kernel
theorem dX8_familyErrors_113 : decode cX8_familyErrors 113 = .ok (.aload_n 0, 1) := by decide +kernel
theorem dX8_familyErrors_114 : decode cX8_familyErrors 114 = .ok (.getfield 34, 3) := by decide +kernel
theorem dX8_familyErrors_117 : decode cX8_familyErrors 117 = .ok (.iload_n 3, 1) := by decide +kernel
theorem dX8_familyErrors_118 : decode cX8_familyErrors 118 = .ok (.aaload, 1) := by decide +kernel
theorem dX8_familyErrors_119 : decode cX8_familyErrors 119 = .ok (.invokestatic 106, 3) := by decide +kernel
theorem dX8_familyErrors_122 : decode cX8_familyErrors 122 = .ok (.if_icmp .eq 7, 3) := by decide +kernel
theorem dX8_familyErrors_125 : decode cX8_familyErrors 125 = .ok (.iconst 1, 1) := by decide +kernel
theorem dX8_familyErrors_126 : decode cX8_familyErrors 126 = .ok (.goto 4, 3) := by decide +kernel
theorem dX8_familyErrors_129 : decode cX8_familyErrors 129 = .ok (.iconst 0, 1) := by decide +kernel
theorem dX8_familyErrors_130 : decode cX8_familyErrors 130 = .ok (.ior, 1) := by decide +kernel
theorem dX8_familyErrors_131 : decode cX8_familyErrors 131 = .ok (.istore 4, 2) := by decide +kernel
theorem dX8_familyErrors_133 : decode cX8_familyErrors 133 = .ok (.iinc 5 1, 3) := by decide +kernel
theorem dX8_familyErrors_136 : decode cX8_familyErrors 136 = .ok (.goto (-66), 3) := by decide +kernel
theorem dX8_familyErrors_139 : decode cX8_familyErrors 139 = .ok (.iload_n 1, 1) := by decide +kernel
theorem dX8_familyErrors_140 : decode cX8_familyErrors 140 = .ok (.iload 4, 2) := by decide +kernel
theorem dX8_familyErrors_142 : decode cX8_familyErrors 142 = .ok (.ifCond .eq 7, 3) := by decide +kernel
theorem dX8_familyErrors_145 : decode cX8_familyErrors 145 = .ok (.iconst 0, 1) := by decide +kernel
theorem dX8_familyErrors_146 : decode cX8_familyErrors 146 = .ok (.goto 4, 3) := by decide +kernel
theorem dX8_familyErrors_149 : decode cX8_familyErrors 149 = .ok (.iconst 1, 1) := by decide +kernel
theorem dX8_familyErrors_150 : decode cX8_familyErrors 150 = .ok (.iadd, 1) := by decide +kernel
theorem dX8_familyErrors_151 : decode cX8_familyErrors 151 = .ok (.istore_n 1, 1) := by decide +kernel
theorem dX8_familyErrors_152 : decode cX8_familyErrors 152 = .ok (.iinc 3 1, 3) := by decide +kernel
theorem dX8_familyErrors_155 : decode cX8_familyErrors 155 = .ok (.goto (-96), 3) := by decide +kernel
theorem dX8_familyErrors_158 : decode cX8_familyErrors 158 = .ok (.iinc 2 1, 3) := by decide +kernel
theorem dX8_familyErrors_161 : decode cX8_familyErrors 161 = .ok (.goto (-152), 3) := by decide +kernel
theorem dX8_familyErrors_164 : decode cX8_familyErrors 164 = .ok (.iload_n 1, 1) := by decide +kernel
theorem dX8_familyErrors_165 : decode cX8_familyErrors 165 = .ok (.ireturn, 1) := by decide +kernel
set_option maxRecDepth 20000 in
theorem ggX8_meanSize_X8_sizeOf : GoodIn wsX8_meanSize wsX8_sizeOf := goodIn_r _ [7] (by decide +kernel) (by decide +kernel)
set_option maxRecDepth 20000 in
theorem gX8_meanSize_X8_sizeOf : GoodIn wsX8_meanSize (va_wsS RX8 80 yX8_sizeOf wsX8_sizeOf) := goodIn_app (goodIn_of _ (by decide +kernel)) ggX8_meanSize_X8_sizeOf
theorem dX8_meanSize_0 : decode cX8_meanSize 0 = .ok (.aload_n 0, 1) := by decide +kernel
theorem dX8_meanSize_1 : decode cX8_meanSize 1 = .ok (.iconst 0, 1) := by decide +kernel
theorem dX8_meanSize_2 : decode cX8_meanSize 2 = .ok (.putfield 3, 3) := by decide +kernel
theorem dX8_meanSize_5 : decode cX8_meanSize 5 = .ok (.iconst 0, 1) := by decide +kernel
theorem dX8_meanSize_6 : decode cX8_meanSize 6 = .ok (.istore_n 1, 1) := by decide +kernel
theorem dX8_meanSize_7 : decode cX8_meanSize 7 = .ok (.iconst 0, 1) := by decide +kernel
theorem dX8_meanSize_8 : decode cX8_meanSize 8 = .ok (.istore_n 2, 1) := by decide +kernel
theorem dX8_meanSize_9 : decode cX8_meanSize 9 = .ok (.iload_n 2, 1) := by decide +kernel
theorem dX8_meanSize_10 : decode cX8_meanSize 10 = .ok (.bipush 8, 2) := by decide +kernel
theorem dX8_meanSize_12 : decode cX8_meanSize 12 = .ok (.if_icmp .ge 21, 3) := by decide +kernel
theorem dX8_meanSize_15 : decode cX8_meanSize 15 = .ok (.iload_n 1, 1) := by decide +kernel
theorem dX8_meanSize_16 : decode cX8_meanSize 16 = .ok (.aload_n 0, 1) := by decide +kernel
theorem dX8_meanSize_17 : decode cX8_meanSize 17 = .ok (.getfield 27, 3) := by decide +kernel
theorem dX8_meanSize_20 : decode cX8_meanSize 20 = .ok (.iload_n 2, 1) := by decide +kernel
theorem dX8_meanSize_21 : decode cX8_meanSize 21 = .ok (.aaload, 1) := by decide +kernel
theorem dX8_meanSize_22 : decode cX8_meanSize 22 = .ok (.invokestatic 80, 3) := by decide +kernel
theorem dX8_meanSize_25 : decode cX8_meanSize 25 = .ok (.iadd, 1) := by decide +kernel
theorem dX8_meanSize_26 : decode cX8_meanSize 26 = .ok (.istore_n 1, 1) := by decide +kernel
theorem dX8_meanSize_27 : decode cX8_meanSize 27 = .ok (.iinc 2 1, 3) := by decide +kernel
theorem dX8_meanSize_30 : decode cX8_meanSize 30 = .ok (.goto (-21), 3) := by decide +kernel
theorem dX8_meanSize_33 : decode cX8_meanSize 33 = .ok (.iload_n 1, 1) := by decide +kernel
theorem dX8_meanSize_34 : decode cX8_meanSize 34 = .ok (.i2d, 1) := by decide +kernel
theorem dX8_meanSize_35 : decode cX8_meanSize 35 = .ok (.ldc2_w 254, 3) := by decide +kernel
theorem dX8_meanSize_38 : decode cX8_meanSize 38 = .ok (.ddiv, 1) := by decide +kernel
theorem dX8_meanSize_39 : decode cX8_meanSize 39 = .ok (.dreturn, 1) := by decide +kernel
set_option maxRecDepth 20000 in
theorem ggX8_nothingShare_X8_votes : GoodIn wsX8_nothingShare wsX8_votes := goodIn_r _ [7, 8, 9, 10, 11, 12, 13, 14, 15, 16, 17, 18, 19, 20, 21, 22, 23, 24, 25, 26, 27] (by decide +kernel) (by decide +kernel)
set_option maxRecDepth 20000 in
theorem gX8_nothingShare_X8_votes : GoodIn wsX8_nothingShare (wsV RX8 109 RX8 yX8_votes wsX8_votes) := goodIn_app (goodIn_of _ (by decide +kernel)) ggX8_nothingShare_X8_votes
theorem dX8_nothingShare_0 : decode cX8_nothingShare 0 = .ok (.aload_n 0, 1) := by decide +kernel
theorem dX8_nothingShare_1 : decode cX8_nothingShare 1 = .ok (.iconst 0, 1) := by decide +kernel
theorem dX8_nothingShare_2 : decode cX8_nothingShare 2 = .ok (.putfield 3, 3) := by decide +kernel
theorem dX8_nothingShare_5 : decode cX8_nothingShare 5 = .ok (.aload_n 0, 1) := by decide +kernel
theorem dX8_nothingShare_6 : decode cX8_nothingShare 6 = .ok (.iconst 0, 1) := by decide +kernel
theorem dX8_nothingShare_7 : decode cX8_nothingShare 7 = .ok (.invokevirtual 109, 3) := by decide +kernel
theorem dX8_nothingShare_10 : decode cX8_nothingShare 10 = .ok (.i2f, 1) := by decide +kernel
theorem dX8_nothingShare_11 : decode cX8_nothingShare 11 = .ok (.ldc_w 256, 3) := by decide +kernel
theorem dX8_nothingShare_14 : decode cX8_nothingShare 14 = .ok (.fdiv, 1) := by decide +kernel
theorem dX8_nothingShare_15 : decode cX8_nothingShare 15 = .ok (.freturn, 1) := by decide +kernel
