theorem dX8_thrown_0 : decode cX8_thrown 0 = .ok (.aload_n 0, 1) := by decide +kernel
theorem dX8_thrown_1 : decode cX8_thrown 1 = .ok (.getfield 3, 3) := by decide +kernel
theorem dX8_thrown_4 : decode cX8_thrown 4 = .ok (.ireturn, 1) := by decide +kernel
theorem dX8_in_0 : decode cX8_in 0 = .ok (.iload_n 0, 1) := by decide +kernel
theorem dX8_in_1 : decode cX8_in 1 = .ok (.iload_n 1, 1) := by decide +kernel
theorem dX8_in_2 : decode cX8_in 2 = .ok (.if_icmp .lt 12, 3) := by decide +kernel
theorem dX8_in_5 : decode cX8_in 5 = .ok (.iload_n 0, 1) := by decide +kernel
theorem dX8_in_6 : decode cX8_in 6 = .ok (.iload_n 2, 1) := by decide +kernel
theorem dX8_in_7 : decode cX8_in 7 = .ok (.if_icmp .gt 7, 3) := by decide +kernel
theorem dX8_in_10 : decode cX8_in 10 = .ok (.iconst 1, 1) := by decide +kernel
theorem dX8_in_11 : decode cX8_in 11 = .ok (.goto 4, 3) := by decide +kernel
theorem dX8_in_14 : decode cX8_in 14 = .ok (.iconst 0, 1) := by decide +kernel
theorem dX8_in_15 : decode cX8_in 15 = .ok (.ireturn, 1) := by decide +kernel
theorem dX8_passes_0 : decode cX8_passes 0 = .ok (.aload_n 0, 1) := by decide +kernel
theorem dX8_passes_1 : decode cX8_passes 1 = .ok (.iload_n 1, 1) := by decide +kernel
theorem dX8_passes_2 : decode cX8_passes 2 = .ok (.ifCond .ne 7, 3) := by decide +kernel
theorem dX8_passes_5 : decode cX8_passes 5 = .ok (.iconst 1, 1) := by decide +kernel
theorem dX8_passes_6 : decode cX8_passes 6 = .ok (.goto 12, 3) := by decide +kernel
theorem dX8_passes_9 : decode cX8_passes 9 = .ok (.iload_n 2, 1) := by decide +kernel
theorem dX8_passes_10 : decode cX8_passes 10 = .ok (.ifCond .ne 7, 3) := by decide +kernel
theorem dX8_passes_13 : decode cX8_passes 13 = .ok (.iconst 2, 1) := by decide +kernel
theorem dX8_passes_14 : decode cX8_passes 14 = .ok (.goto 4, 3) := by decide +kernel
theorem dX8_passes_17 : decode cX8_passes 17 = .ok (.iconst 0, 1) := by decide +kernel
theorem dX8_passes_18 : decode cX8_passes 18 = .ok (.putfield 3, 3) := by decide +kernel
theorem dX8_passes_21 : decode cX8_passes 21 = .ok (.aload_n 0, 1) := by decide +kernel
theorem dX8_passes_22 : decode cX8_passes 22 = .ok (.getfield 3, 3) := by decide +kernel
theorem dX8_passes_25 : decode cX8_passes 25 = .ok (.ifCond .ne 7, 3) := by decide +kernel
theorem dX8_passes_28 : decode cX8_passes 28 = .ok (.iconst 1, 1) := by decide +kernel
theorem dX8_passes_29 : decode cX8_passes 29 = .ok (.goto 4, 3) := by decide +kernel
theorem dX8_passes_32 : decode cX8_passes 32 = .ok (.iconst 0, 1) := by decide +kernel
theorem dX8_passes_33 : decode cX8_passes 33 = .ok (.ireturn, 1) := by decide +kernel
set_option maxRecDepth 20000 in
theorem ggX8_isSet_X8_in : GoodIn wsX8_isSet wsX8_in := goodIn_r _ [4] (by decide +kernel) (by decide +kernel)
set_option maxRecDepth 20000 in
theorem gX8_isSet_X8_in : GoodIn wsX8_isSet (va_wsS RX8 7 yX8_in wsX8_in) := goodIn_app (goodIn_of _ (by decide +kernel)) ggX8_isSet_X8_in
theorem dX8_isSet_0 : decode cX8_isSet 0 = .ok (.iload_n 0, 1) := by decide +kernel
theorem dX8_isSet_1 : decode cX8_isSet 1 = .ok (.iconst 0, 1) := by decide +kernel
theorem dX8_isSet_2 : decode cX8_isSet 2 = .ok (.bipush 7, 2) := by decide +kernel
theorem dX8_isSet_4 : decode cX8_isSet 4 = .ok (.invokestatic 7, 3) := by decide +kernel
theorem dX8_isSet_7 : decode cX8_isSet 7 = .ok (.ireturn, 1) := by decide +kernel
set_option maxRecDepth 20000 in
theorem ggX8_isMember_X8_in : GoodIn wsX8_isMember wsX8_in := goodIn_r _ [4] (by decide +kernel) (by decide +kernel)
set_option maxRecDepth 20000 in
theorem gX8_isMember_X8_in : GoodIn wsX8_isMember (va_wsS RX8 7 yX8_in wsX8_in) := goodIn_app (goodIn_of _ (by decide +kernel)) ggX8_isMember_X8_in
theorem dX8_isMember_0 : decode cX8_isMember 0 = .ok (.iload_n 0, 1) := by decide +kernel
theorem dX8_isMember_1 : decode cX8_isMember 1 = .ok (.bipush 100, 2) := by decide +kernel
theorem dX8_isMember_3 : decode cX8_isMember 3 = .ok (.if_icmp .eq 14, 3) := by decide +kernel
theorem dX8_isMember_6 : decode cX8_isMember 6 = .ok (.iload_n 0, 1) := by decide +kernel
theorem dX8_isMember_7 : decode cX8_isMember 7 = .ok (.bipush (-50), 2) := by decide +kernel
theorem dX8_isMember_9 : decode cX8_isMember 9 = .ok (.bipush 50, 2) := by decide +kernel
theorem dX8_isMember_11 : decode cX8_isMember 11 = .ok (.invokestatic 7, 3) := by decide +kernel
theorem dX8_isMember_14 : decode cX8_isMember 14 = .ok (.ifCond .eq 7, 3) := by decide +kernel
theorem dX8_isMember_17 : decode cX8_isMember 17 = .ok (.iconst 1, 1) := by decide +kernel
theorem dX8_isMember_18 : decode cX8_isMember 18 = .ok (.goto 4, 3) := by decide +kernel
theorem dX8_isMember_21 : decode cX8_isMember 21 = .ok (.iconst 0, 1) := by decide +kernel
theorem dX8_isMember_22 : decode cX8_isMember 22 = .ok (.ireturn, 1) := by decide +kernel
theorem dX8_placeOfMember_0 : decode cX8_placeOfMember 0 = .ok (.iload_n 0, 1) := by decide +kernel
theorem dX8_placeOfMember_1 : decode cX8_placeOfMember 1 = .ok (.bipush 100, 2) := by decide +kernel
theorem dX8_placeOfMember_3 : decode cX8_placeOfMember 3 = .ok (.if_icmp .ne 7, 3) := by decide +kernel
theorem dX8_placeOfMember_6 : decode cX8_placeOfMember 6 = .ok (.iconst 0, 1) := by decide +kernel
theorem dX8_placeOfMember_7 : decode cX8_placeOfMember 7 = .ok (.goto 9, 3) := by decide +kernel
theorem dX8_placeOfMember_10 : decode cX8_placeOfMember 10 = .ok (.iload_n 0, 1) := by decide +kernel
theorem dX8_placeOfMember_11 : decode cX8_placeOfMember 11 = .ok (.bipush 50, 2) := by decide +kernel
theorem dX8_placeOfMember_13 : decode cX8_placeOfMember 13 = .ok (.iadd, 1) := by decide +kernel
theorem dX8_placeOfMember_14 : decode cX8_placeOfMember 14 = .ok (.iconst 1, 1) := by decide +kernel
theorem dX8_placeOfMember_15 : decode cX8_placeOfMember 15 = .ok (.iadd, 1) := by decide +kernel
theorem dX8_placeOfMember_16 : decode cX8_placeOfMember 16 = .ok (.ireturn, 1) := by decide +kernel
theorem dX8_memberOf_0 : decode cX8_memberOf 0 = .ok (.iload_n 0, 1) := by decide +kernel
theorem dX8_memberOf_1 : decode cX8_memberOf 1 = .ok (.ifCond .ne 8, 3) := by decide +kernel
theorem dX8_memberOf_4 : decode cX8_memberOf 4 = .ok (.bipush 100, 2) := by decide +kernel
theorem dX8_memberOf_6 : decode cX8_memberOf 6 = .ok (.goto 9, 3) := by decide +kernel
theorem dX8_memberOf_9 : decode cX8_memberOf 9 = .ok (.iload_n 0, 1) := by decide +kernel
theorem dX8_memberOf_10 : decode cX8_memberOf 10 = .ok (.bipush 50, 2) := by decide +kernel
theorem dX8_memberOf_12 : decode cX8_memberOf 12 = .ok (.isub, 1) := by decide +kernel
theorem dX8_memberOf_13 : decode cX8_memberOf 13 = .ok (.iconst 1, 1) := by decide +kernel
theorem dX8_memberOf_14 : decode cX8_memberOf 14 = .ok (.isub, 1) := by decide +kernel
theorem dX8_memberOf_15 : decode cX8_memberOf 15 = .ok (.ireturn, 1) := by decide +kernel
theorem dX8_copies_0 : decode cX8_copies 0 = .ok (.iconst 0, 1) := by decide +kernel
theorem dX8_copies_1 : decode cX8_copies 1 = .ok (.istore_n 2, 1) := by decide +kernel
theorem dX8_copies_2 : decode cX8_copies 2 = .ok (.iload_n 2, 1) := by decide +kernel
theorem dX8_copies_3 : decode cX8_copies 3 = .ok (.bipush 102, 2) := by decide +kernel
theorem dX8_copies_5 : decode cX8_copies 5 = .ok (.if_icmp .ge 15, 3) := by decide +kernel
theorem dX8_copies_8 : decode cX8_copies 8 = .ok (.aload_n 1, 1) := by decide +kernel
theorem dX8_copies_9 : decode cX8_copies 9 = .ok (.iload_n 2, 1) := by decide +kernel
theorem dX8_copies_10 : decode cX8_copies 10 = .ok (.aload_n 0, 1) := by decide +kernel
theorem dX8_copies_11 : decode cX8_copies 11 = .ok (.iload_n 2, 1) := by decide +kernel
theorem dX8_copies_12 : decode cX8_copies 12 = .ok (.baload, 1) := by decide +kernel
theorem dX8_copies_13 : decode cX8_copies 13 = .ok (.bastore, 1) := by decide +kernel
theorem dX8_copies_14 : decode cX8_copies 14 = .ok (.iinc 2 1, 3) := by decide +kernel
theorem dX8_copies_17 : decode cX8_copies 17 = .ok (.goto (-15), 3) := by decide +kernel
theorem dX8_copies_20 : decode cX8_copies 20 = .ok (.return_, 1) := by decide +kernel
theorem dX8_sizeOf_0 : decode cX8_sizeOf 0 = .ok (.iconst 0, 1) := by decide +kernel
theorem dX8_sizeOf_1 : decode cX8_sizeOf 1 = .ok (.istore_n 1, 1) := by decide +kernel
theorem dX8_sizeOf_2 : decode cX8_sizeOf 2 = .ok (.iconst 0, 1) := by decide +kernel
theorem dX8_sizeOf_3 : decode cX8_sizeOf 3 = .ok (.istore_n 2, 1) := by decide +kernel
theorem dX8_sizeOf_4 : decode cX8_sizeOf 4 = .ok (.iload_n 2, 1) := by decide +kernel
theorem dX8_sizeOf_5 : decode cX8_sizeOf 5 = .ok (.bipush 102, 2) := by decide +kernel
theorem dX8_sizeOf_7 : decode cX8_sizeOf 7 = .ok (.if_icmp .ge 23, 3) := by decide +kernel
theorem dX8_sizeOf_10 : decode cX8_sizeOf 10 = .ok (.iload_n 1, 1) := by decide +kernel
theorem dX8_sizeOf_11 : decode cX8_sizeOf 11 = .ok (.aload_n 0, 1) := by decide +kernel
theorem dX8_sizeOf_12 : decode cX8_sizeOf 12 = .ok (.iload_n 2, 1) := by decide +kernel
theorem dX8_sizeOf_13 : decode cX8_sizeOf 13 = .ok (.baload, 1) := by decide +kernel
theorem dX8_sizeOf_14 : decode cX8_sizeOf 14 = .ok (.ifCond .eq 7, 3) := by decide +kernel
theorem dX8_sizeOf_17 : decode cX8_sizeOf 17 = .ok (.iconst 1, 1) := by decide +kernel
theorem dX8_sizeOf_18 : decode cX8_sizeOf 18 = .ok (.goto 4, 3) := by decide +kernel
theorem dX8_sizeOf_21 : decode cX8_sizeOf 21 = .ok (.iconst 0, 1) := by decide +kernel
theorem dX8_sizeOf_22 : decode cX8_sizeOf 22 = .ok (.iadd, 1) := by decide +kernel
theorem dX8_sizeOf_23 : decode cX8_sizeOf 23 = .ok (.istore_n 1, 1) := by decide +kernel
theorem dX8_sizeOf_24 : decode cX8_sizeOf 24 = .ok (.iinc 2 1, 3) := by decide +kernel
theorem dX8_sizeOf_27 : decode cX8_sizeOf 27 = .ok (.goto (-23), 3) := by decide +kernel
theorem dX8_sizeOf_30 : decode cX8_sizeOf 30 = .ok (.iload_n 1, 1) := by decide +kernel
theorem dX8_sizeOf_31 : decode cX8_sizeOf 31 = .ok (.ireturn, 1) := by decide +kernel
set_option maxRecDepth 20000 in
theorem ggX8_sumOf_X8_memberOf : GoodIn wsX8_sumOf wsX8_memberOf := goodIn_r _ [4] (by decide +kernel) (by decide +kernel)
set_option maxRecDepth 20000 in
theorem gX8_sumOf_X8_memberOf : GoodIn wsX8_sumOf (va_wsS RX8 11 yX8_memberOf wsX8_memberOf) := goodIn_app (goodIn_of _ (by decide +kernel)) ggX8_sumOf_X8_memberOf
theorem dX8_sumOf_0 : decode cX8_sumOf 0 = .ok (.iconst 0, 1) := by decide +kernel
theorem dX8_sumOf_1 : decode cX8_sumOf 1 = .ok (.istore_n 1, 1) := by decide +kernel
theorem dX8_sumOf_2 : decode cX8_sumOf 2 = .ok (.iconst 1, 1) := by decide +kernel
theorem dX8_sumOf_3 : decode cX8_sumOf 3 = .ok (.istore_n 2, 1) := by decide +kernel
theorem dX8_sumOf_4 : decode cX8_sumOf 4 = .ok (.iload_n 2, 1) := by decide +kernel
theorem dX8_sumOf_5 : decode cX8_sumOf 5 = .ok (.bipush 102, 2) := by decide +kernel
theorem dX8_sumOf_7 : decode cX8_sumOf 7 = .ok (.if_icmp .ge 26, 3) := by decide +kernel
theorem dX8_sumOf_10 : decode cX8_sumOf 10 = .ok (.iload_n 1, 1) := by decide +kernel
theorem dX8_sumOf_11 : decode cX8_sumOf 11 = .ok (.aload_n 0, 1) := by decide +kernel
theorem dX8_sumOf_12 : decode cX8_sumOf 12 = .ok (.iload_n 2, 1) := by decide +kernel
theorem dX8_sumOf_13 : decode cX8_sumOf 13 = .ok (.baload, 1) := by decide +kernel
theorem dX8_sumOf_14 : decode cX8_sumOf 14 = .ok (.ifCond .eq 10, 3) := by decide +kernel
theorem dX8_sumOf_17 : decode cX8_sumOf 17 = .ok (.iload_n 2, 1) := by decide +kernel
theorem dX8_sumOf_18 : decode cX8_sumOf 18 = .ok (.invokestatic 11, 3) := by decide +kernel
theorem dX8_sumOf_21 : decode cX8_sumOf 21 = .ok (.goto 4, 3) := by decide +kernel
theorem dX8_sumOf_24 : decode cX8_sumOf 24 = .ok (.iconst 0, 1) := by decide +kernel
theorem dX8_sumOf_25 : decode cX8_sumOf 25 = .ok (.iadd, 1) := by decide +kernel
theorem dX8_sumOf_26 : decode cX8_sumOf 26 = .ok (.istore_n 1, 1) := by decide +kernel
theorem dX8_sumOf_27 : decode cX8_sumOf 27 = .ok (.iinc 2 1, 3) := by decide +kernel
theorem dX8_sumOf_30 : decode cX8_sumOf 30 = .ok (.goto (-26), 3) := by decide +kernel
theorem dX8_sumOf_33 : decode cX8_sumOf 33 = .ok (.iload_n 1, 1) := by decide +kernel
theorem dX8_sumOf_34 : decode cX8_sumOf 34 = .ok (.ireturn, 1) := by decide +kernel
theorem dX8_firstOther_0 : decode cX8_firstOther 0 = .ok (.iconst 0, 1) := by decide +kernel
theorem dX8_firstOther_1 : decode cX8_firstOther 1 = .ok (.istore_n 2, 1) := by decide +kernel
theorem dX8_firstOther_2 : decode cX8_firstOther 2 = .ok (.iload_n 2, 1) := by decide +kernel
theorem dX8_firstOther_3 : decode cX8_firstOther 3 = .ok (.bipush 102, 2) := by decide +kernel
theorem dX8_firstOther_5 : decode cX8_firstOther 5 = .ok (.if_icmp .ge 20, 3) := by decide +kernel
theorem dX8_firstOther_8 : decode cX8_firstOther 8 = .ok (.aload_n 0, 1) := by decide +kernel
theorem dX8_firstOther_9 : decode cX8_firstOther 9 = .ok (.iload_n 2, 1) := by decide +kernel
theorem dX8_firstOther_10 : decode cX8_firstOther 10 = .ok (.baload, 1) := by decide +kernel
theorem dX8_firstOther_11 : decode cX8_firstOther 11 = .ok (.aload_n 1, 1) := by decide +kernel
theorem dX8_firstOther_12 : decode cX8_firstOther 12 = .ok (.iload_n 2, 1) := by decide +kernel
theorem dX8_firstOther_13 : decode cX8_firstOther 13 = .ok (.baload, 1) := by decide +kernel
theorem dX8_firstOther_14 : decode cX8_firstOther 14 = .ok (.if_icmp .eq 5, 3) := by decide +kernel
theorem dX8_firstOther_17 : decode cX8_firstOther 17 = .ok (.iload_n 2, 1) := by decide +kernel
theorem dX8_firstOther_18 : decode cX8_firstOther 18 = .ok (.ireturn, 1) := by decide +kernel
theorem dX8_firstOther_19 : decode cX8_firstOther 19 = .ok (.iinc 2 1, 3) := by decide +kernel
theorem dX8_firstOther_22 : decode cX8_firstOther 22 = .ok (.goto (-20), 3) := by decide +kernel
theorem dX8_firstOther_25 : decode cX8_firstOther 25 = .ok (.iconst (-1), 1) := by decide +kernel
theorem dX8_firstOther_26 : decode cX8_firstOther 26 = .ok (.ireturn, 1) := by decide +kernel
set_option maxRecDepth 20000 in
theorem ggX8_areSame_X8_firstOther : GoodIn wsX8_areSame wsX8_firstOther := goodIn_r _ [4] (by decide +kernel) (by decide +kernel)
set_option maxRecDepth 20000 in
theorem gX8_areSame_X8_firstOther : GoodIn wsX8_areSame (va_wsS RX8 15 yX8_firstOther wsX8_firstOther) := goodIn_app (goodIn_of _ (by decide +kernel)) ggX8_areSame_X8_firstOther
theorem dX8_areSame_0 : decode cX8_areSame 0 = .ok (.aload_n 0, 1) := by decide +kernel
theorem dX8_areSame_1 : decode cX8_areSame 1 = .ok (.aload_n 1, 1) := by decide +kernel
theorem dX8_areSame_2 : decode cX8_areSame 2 = .ok (.invokestatic 15, 3) := by decide +kernel
theorem dX8_areSame_5 : decode cX8_areSame 5 = .ok (.iconst (-1), 1) := by decide +kernel
theorem dX8_areSame_6 : decode cX8_areSame 6 = .ok (.if_icmp .ne 7, 3) := by decide +kernel
theorem dX8_areSame_9 : decode cX8_areSame 9 = .ok (.iconst 1, 1) := by decide +kernel
theorem dX8_areSame_10 : decode cX8_areSame 10 = .ok (.goto 4, 3) := by decide +kernel
theorem dX8_areSame_13 : decode cX8_areSame 13 = .ok (.iconst 0, 1) := by decide +kernel
theorem dX8_areSame_14 : decode cX8_areSame 14 = .ok (.ireturn, 1) := by decide +kernel
theorem dX8_lies_0 : decode cX8_lies 0 = .ok (.iconst 0, 1) := by decide +kernel
theorem dX8_lies_1 : decode cX8_lies 1 = .ok (.istore_n 2, 1) := by decide +kernel
theorem dX8_lies_2 : decode cX8_lies 2 = .ok (.iload_n 2, 1) := by decide +kernel
theorem dX8_lies_3 : decode cX8_lies 3 = .ok (.bipush 102, 2) := by decide +kernel
theorem dX8_lies_5 : decode cX8_lies 5 = .ok (.if_icmp .ge 23, 3) := by decide +kernel
theorem dX8_lies_8 : decode cX8_lies 8 = .ok (.aload_n 0, 1) := by decide +kernel
theorem dX8_lies_9 : decode cX8_lies 9 = .ok (.iload_n 2, 1) := by decide +kernel
theorem dX8_lies_10 : decode cX8_lies 10 = .ok (.baload, 1) := by decide +kernel
theorem dX8_lies_11 : decode cX8_lies 11 = .ok (.ifCond .eq 11, 3) := by decide +kernel
theorem dX8_lies_14 : decode cX8_lies 14 = .ok (.aload_n 1, 1) := by decide +kernel
theorem dX8_lies_15 : decode cX8_lies 15 = .ok (.iload_n 2, 1) := by decide +kernel
theorem dX8_lies_16 : decode cX8_lies 16 = .ok (.baload, 1) := by decide +kernel
theorem dX8_lies_17 : decode cX8_lies 17 = .ok (.ifCond .ne 5, 3) := by decide +kernel
theorem dX8_lies_20 : decode cX8_lies 20 = .ok (.iconst 0, 1) := by decide +kernel
theorem dX8_lies_21 : decode cX8_lies 21 = .ok (.ireturn, 1) := by decide +kernel
theorem dX8_lies_22 : decode cX8_lies 22 = .ok (.iinc 2 1, 3) := by decide +kernel
theorem dX8_lies_25 : decode cX8_lies 25 = .ok (.goto (-23), 3) := by decide +kernel
theorem dX8_lies_28 : decode cX8_lies 28 = .ok (.iconst 1, 1) := by decide +kernel
theorem dX8_lies_29 : decode cX8_lies 29 = .ok (.ireturn, 1) := by decide +kernel
theorem dX8_joins_0 : decode cX8_joins 0 = .ok (.iconst 0, 1) := by decide +kernel
theorem dX8_joins_1 : decode cX8_joins 1 = .ok (.istore 4, 2) := by decide +kernel
theorem dX8_joins_3 : decode cX8_joins 3 = .ok (.iload 4, 2) := by decide +kernel
theorem dX8_joins_5 : decode cX8_joins 5 = .ok (.bipush 102, 2) := by decide +kernel
theorem dX8_joins_7 : decode cX8_joins 7 = .ok (.if_icmp .ge 109, 3) := by decide +kernel
theorem dX8_joins_10 : decode cX8_joins 10 = .ok (.aload_n 3, 1) := by decide +kernel
theorem dX8_joins_11 : decode cX8_joins 11 = .ok (.iload 4, 2) := by decide +kernel
theorem dX8_joins_13 : decode cX8_joins 13 = .ok (.iload_n 2, 1) := by decide +kernel
theorem dX8_joins_14 : decode cX8_joins 14 = .ok (.ifCond .ne 25, 3) := by decide +kernel
theorem dX8_joins_17 : decode cX8_joins 17 = .ok (.aload_n 0, 1) := by decide +kernel
theorem dX8_joins_18 : decode cX8_joins 18 = .ok (.iload 4, 2) := by decide +kernel
theorem dX8_joins_20 : decode cX8_joins 20 = .ok (.baload, 1) := by decide +kernel
theorem dX8_joins_21 : decode cX8_joins 21 = .ok (.ifCond .ne 10, 3) := by decide +kernel
theorem dX8_joins_24 : decode cX8_joins 24 = .ok (.aload_n 1, 1) := by decide +kernel
theorem dX8_joins_25 : decode cX8_joins 25 = .ok (.iload 4, 2) := by decide +kernel
theorem dX8_joins_27 : decode cX8_joins 27 = .ok (.baload, 1) := by decide +kernel
theorem dX8_joins_28 : decode cX8_joins 28 = .ok (.ifCond .eq 7, 3) := by decide +kernel
theorem dX8_joins_31 : decode cX8_joins 31 = .ok (.iconst 1, 1) := by decide +kernel
theorem dX8_joins_32 : decode cX8_joins 32 = .ok (.goto 77, 3) := by decide +kernel
theorem dX8_joins_35 : decode cX8_joins 35 = .ok (.iconst 0, 1) := by decide +kernel
theorem dX8_joins_36 : decode cX8_joins 36 = .ok (.goto 73, 3) := by decide +kernel
theorem dX8_joins_39 : decode cX8_joins 39 = .ok (.iload_n 2, 1) := by decide +kernel
theorem dX8_joins_40 : decode cX8_joins 40 = .ok (.iconst 1, 1) := by decide +kernel
theorem dX8_joins_41 : decode cX8_joins 41 = .ok (.if_icmp .ne 25, 3) := by decide +kernel
theorem dX8_joins_44 : decode cX8_joins 44 = .ok (.aload_n 0, 1) := by decide +kernel
theorem dX8_joins_45 : decode cX8_joins 45 = .ok (.iload 4, 2) := by decide +kernel
theorem dX8_joins_47 : decode cX8_joins 47 = .ok (.baload, 1) := by decide +kernel
theorem dX8_joins_48 : decode cX8_joins 48 = .ok (.ifCond .eq 14, 3) := by decide +kernel
theorem dX8_joins_51 : decode cX8_joins 51 = .ok (.aload_n 1, 1) := by decide +kernel
theorem dX8_joins_52 : decode cX8_joins 52 = .ok (.iload 4, 2) := by decide +kernel
theorem dX8_joins_54 : decode cX8_joins 54 = .ok (.baload, 1) := by decide +kernel
theorem dX8_joins_55 : decode cX8_joins 55 = .ok (.ifCond .eq 7, 3) := by decide +kernel
theorem dX8_joins_58 : decode cX8_joins 58 = .ok (.iconst 1, 1) := by decide +kernel
theorem dX8_joins_59 : decode cX8_joins 59 = .ok (.goto 50, 3) := by decide +kernel
theorem dX8_joins_62 : decode cX8_joins 62 = .ok (.iconst 0, 1) := by decide +kernel
theorem dX8_joins_63 : decode cX8_joins 63 = .ok (.goto 46, 3) := by decide +kernel
theorem dX8_joins_66 : decode cX8_joins 66 = .ok (.iload_n 2, 1) := by decide +kernel
theorem dX8_joins_67 : decode cX8_joins 67 = .ok (.iconst 2, 1) := by decide +kernel
theorem dX8_joins_68 : decode cX8_joins 68 = .ok (.if_icmp .ne 25, 3) := by decide +kernel
theorem dX8_joins_71 : decode cX8_joins 71 = .ok (.aload_n 0, 1) := by decide +kernel
theorem dX8_joins_72 : decode cX8_joins 72 = .ok (.iload 4, 2) := by decide +kernel
theorem dX8_joins_74 : decode cX8_joins 74 = .ok (.baload, 1) := by decide +kernel
theorem dX8_joins_75 : decode cX8_joins 75 = .ok (.ifCond .eq 14, 3) := by decide +kernel
theorem dX8_joins_78 : decode cX8_joins 78 = .ok (.aload_n 1, 1) := by decide +kernel
theorem dX8_joins_79 : decode cX8_joins 79 = .ok (.iload 4, 2) := by decide +kernel
theorem dX8_joins_81 : decode cX8_joins 81 = .ok (.baload, 1) := by decide +kernel
theorem dX8_joins_82 : decode cX8_joins 82 = .ok (.ifCond .ne 7, 3) := by decide +kernel
theorem dX8_joins_85 : decode cX8_joins 85 = .ok (.iconst 1, 1) := by decide +kernel
theorem dX8_joins_86 : decode cX8_joins 86 = .ok (.goto 23, 3) := by decide +kernel
theorem dX8_joins_89 : decode cX8_joins 89 = .ok (.iconst 0, 1) := by decide +kernel
theorem dX8_joins_90 : decode cX8_joins 90 = .ok (.goto 19, 3) := by decide +kernel
theorem dX8_joins_93 : decode cX8_joins 93 = .ok (.aload_n 0, 1) := by decide +kernel
theorem dX8_joins_94 : decode cX8_joins 94 = .ok (.iload 4, 2) := by decide +kernel
theorem dX8_joins_96 : decode cX8_joins 96 = .ok (.baload, 1) := by decide +kernel
theorem dX8_joins_97 : decode cX8_joins 97 = .ok (.aload_n 1, 1) := by decide +kernel
theorem dX8_joins_98 : decode cX8_joins 98 = .ok (.iload 4, 2) := by decide +kernel
theorem dX8_joins_100 : decode cX8_joins 100 = .ok (.baload, 1) := by decide +kernel
theorem dX8_joins_101 : decode cX8_joins 101 = .ok (.if_icmp .eq 7, 3) := by decide +kernel
theorem dX8_joins_104 : decode cX8_joins 104 = .ok (.iconst 1, 1) := by decide +kernel
theorem dX8_joins_105 : decode cX8_joins 105 = .ok (.goto 4, 3) := by decide +kernel
theorem dX8_joins_108 : decode cX8_joins 108 = .ok (.iconst 0, 1) := by decide +kernel
theorem dX8_joins_109 : decode cX8_joins 109 = .ok (.bastore, 1) := by decide +kernel
theorem dX8_joins_110 : decode cX8_joins 110 = .ok (.iinc 4 1, 3) := by decide +kernel
theorem dX8_joins_113 : decode cX8_joins 113 = .ok (.goto (-110), 3) := by decide +kernel
theorem dX8_joins_116 : decode cX8_joins 116 = .ok (.return_, 1) := by decide +kernel
theorem dX8_init_0 : decode cX8_init 0 = .ok (.aload_n 0, 1) := by decide +kernel
theorem dX8_init_1 : decode cX8_init 1 = .ok (.invokespecial 19, 3) := by decide +kernel
theorem dX8_init_4 : decode cX8_init 4 = .ok (.aload_n 0, 1) := by decide +kernel
theorem dX8_init_5 : decode cX8_init 5 = .ok (.bipush 8, 2) := by decide +kernel
theorem dX8_init_7 : decode cX8_init 7 = .ok (.bipush 102, 2) := by decide +kernel
theorem dX8_init_9 : decode cX8_init 9 = .ok (.multianewarray 25 2, 4) := by decide +kernel
theorem dX8_init_13 : decode cX8_init 13 = .ok (.putfield 27, 3) := by decide +kernel
theorem dX8_init_16 : decode cX8_init 16 = .ok (.aload_n 0, 1) := by decide +kernel
theorem dX8_init_17 : decode cX8_init 17 = .ok (.bipush 102, 2) := by decide +kernel
theorem dX8_init_19 : decode cX8_init 19 = .ok (.newarray .boolean, 2) := by decide +kernel
theorem dX8_init_21 : decode cX8_init 21 = .ok (.putfield 30, 3) := by decide +kernel
theorem dX8_init_24 : decode cX8_init 24 = .ok (.aload_n 0, 1) := by decide +kernel
theorem dX8_init_25 : decode cX8_init 25 = .ok (.bipush 7, 2) := by decide +kernel
theorem dX8_init_27 : decode cX8_init 27 = .ok (.bipush 102, 2) := by decide +kernel
theorem dX8_init_29 : decode cX8_init 29 = .ok (.multianewarray 25 2, 4) := by decide +kernel
theorem dX8_init_33 : decode cX8_init 33 = .ok (.putfield 34, 3) := by decide +kernel
theorem dX8_init_36 : decode cX8_init 36 = .ok (.aload_n 0, 1) := by decide +kernel
theorem dX8_init_37 : decode cX8_init 37 = .ok (.bipush 7, 2) := by decide +kernel
theorem dX8_init_39 : decode cX8_init 39 = .ok (.bipush 102, 2) := by decide +kernel
theorem dX8_init_41 : decode cX8_init 41 = .ok (.multianewarray 25 2, 4) := by decide +kernel
theorem dX8_init_45 : decode cX8_init 45 = .ok (.putfield 37, 3) := by decide +kernel
theorem dX8_init_48 : decode cX8_init 48 = .ok (.aload_n 0, 1) := by decide +kernel
theorem dX8_init_49 : decode cX8_init 49 = .ok (.bipush 102, 2) := by decide +kernel
theorem dX8_init_51 : decode cX8_init 51 = .ok (.newarray .boolean, 2) := by decide +kernel
theorem dX8_init_53 : decode cX8_init 53 = .ok (.putfield 40, 3) := by decide +kernel
theorem dX8_init_56 : decode cX8_init 56 = .ok (.aload_n 0, 1) := by decide +kernel
theorem dX8_init_57 : decode cX8_init 57 = .ok (.sipush 200, 3) := by decide +kernel
theorem dX8_init_60 : decode cX8_init 60 = .ok (.newarray .int, 2) := by decide +kernel
theorem dX8_init_62 : decode cX8_init 62 = .ok (.putfield 43, 3) := by decide +kernel
theorem dX8_init_65 : decode cX8_init 65 = .ok (.aload_n 0, 1) := by decide +kernel
theorem dX8_init_66 : decode cX8_init 66 = .ok (.bipush 40, 2) := by decide +kernel
theorem dX8_init_68 : decode cX8_init 68 = .ok (.bipush 102, 2) := by decide +kernel
theorem dX8_init_70 : decode cX8_init 70 = .ok (.multianewarray 25 2, 4) := by decide +kernel
theorem dX8_init_74 : decode cX8_init 74 = .ok (.putfield 47, 3) := by decide +kernel
theorem dX8_init_77 : decode cX8_init 77 = .ok (.aload_n 0, 1) := by decide +kernel
theorem dX8_init_78 : decode cX8_init 78 = .ok (.bipush 102, 2) := by decide +kernel
theorem dX8_init_80 : decode cX8_init 80 = .ok (.newarray .boolean, 2) := by decide +kernel
theorem dX8_init_82 : decode cX8_init 82 = .ok (.putfield 50, 3) := by decide +kernel
theorem dX8_init_85 : decode cX8_init 85 = .ok (.aload_n 0, 1) := by decide +kernel
theorem dX8_init_86 : decode cX8_init 86 = .ok (.bipush 102, 2) := by decide +kernel
theorem dX8_init_88 : decode cX8_init 88 = .ok (.newarray .boolean, 2) := by decide +kernel
theorem dX8_init_90 : decode cX8_init 90 = .ok (.putfield 53, 3) := by decide +kernel
theorem dX8_init_93 : decode cX8_init 93 = .ok (.aload_n 0, 1) := by decide +kernel
theorem dX8_init_94 : decode cX8_init 94 = .ok (.bipush 102, 2) := by decide +kernel
theorem dX8_init_96 : decode cX8_init 96 = .ok (.newarray .boolean, 2) := by decide +kernel
theorem dX8_init_98 : decode cX8_init 98 = .ok (.putfield 56, 3) := by decide +kernel
theorem dX8_init_101 : decode cX8_init 101 = .ok (.aload_n 0, 1) := by decide +kernel
theorem dX8_init_102 : decode cX8_init 102 = .ok (.iconst 0, 1) := by decide +kernel
theorem dX8_init_103 : decode cX8_init 103 = .ok (.putfield 59, 3) := by decide +kernel
theorem dX8_init_106 : decode cX8_init 106 = .ok (.return_, 1) := by decide +kernel
set_option maxRecDepth 20000 in
theorem ggX8_puts_X8_placeOfMember : GoodIn wsX8_puts wsX8_placeOfMember := goodIn_r _ [5] (by decide +kernel) (by decide +kernel)
set_option maxRecDepth 20000 in
theorem gX8_puts_X8_placeOfMember : GoodIn wsX8_puts (va_wsS RX8 62 yX8_placeOfMember wsX8_placeOfMember) := goodIn_app (goodIn_of _ (by decide +kernel)) ggX8_puts_X8_placeOfMember
theorem dX8_puts_0 : decode cX8_puts 0 = .ok (.iload_n 2, 1) := by decide +kernel
theorem dX8_puts_1 : decode cX8_puts 1 = .ok (.invokestatic 62, 3) := by decide +kernel
theorem dX8_puts_4 : decode cX8_puts 4 = .ok (.istore 4, 2) := by decide +kernel
theorem dX8_puts_6 : decode cX8_puts 6 = .ok (.aload_n 0, 1) := by decide +kernel
theorem dX8_puts_7 : decode cX8_puts 7 = .ok (.getfield 27, 3) := by decide +kernel
theorem dX8_puts_10 : decode cX8_puts 10 = .ok (.iload_n 1, 1) := by decide +kernel
theorem dX8_puts_11 : decode cX8_puts 11 = .ok (.aaload, 1) := by decide +kernel
theorem dX8_puts_12 : decode cX8_puts 12 = .ok (.iload 4, 2) := by decide +kernel
theorem dX8_puts_14 : decode cX8_puts 14 = .ok (.baload, 1) := by decide +kernel
theorem dX8_puts_15 : decode cX8_puts 15 = .ok (.iload_n 3, 1) := by decide +kernel
theorem dX8_puts_16 : decode cX8_puts 16 = .ok (.if_icmp .eq 7, 3) := by decide +kernel
theorem dX8_puts_19 : decode cX8_puts 19 = .ok (.iconst 1, 1) := by decide +kernel
theorem dX8_puts_20 : decode cX8_puts 20 = .ok (.goto 4, 3) := by decide +kernel
theorem dX8_puts_23 : decode cX8_puts 23 = .ok (.iconst 0, 1) := by decide +kernel
theorem dX8_puts_24 : decode cX8_puts 24 = .ok (.istore 5, 2) := by decide +kernel
theorem dX8_puts_26 : decode cX8_puts 26 = .ok (.aload_n 0, 1) := by decide +kernel
theorem dX8_puts_27 : decode cX8_puts 27 = .ok (.getfield 27, 3) := by decide +kernel
theorem dX8_puts_30 : decode cX8_puts 30 = .ok (.iload_n 1, 1) := by decide +kernel
theorem dX8_puts_31 : decode cX8_puts 31 = .ok (.aaload, 1) := by decide +kernel
theorem dX8_puts_32 : decode cX8_puts 32 = .ok (.iload 4, 2) := by decide +kernel
theorem dX8_puts_34 : decode cX8_puts 34 = .ok (.iload_n 3, 1) := by decide +kernel
theorem dX8_puts_35 : decode cX8_puts 35 = .ok (.bastore, 1) := by decide +kernel
theorem dX8_puts_36 : decode cX8_puts 36 = .ok (.iload 5, 2) := by decide +kernel
theorem dX8_puts_38 : decode cX8_puts 38 = .ok (.ireturn, 1) := by decide +kernel
set_option maxRecDepth 20000 in
theorem ggX8_add_X8_isSet : GoodIn wsX8_add wsX8_isSet := goodIn_r _ [4, 5, 6, 3, 7] (by decide +kernel) (by decide +kernel)
set_option maxRecDepth 20000 in
theorem gX8_add_X8_isSet : GoodIn wsX8_add (va_wsS RX8 65 yX8_isSet wsX8_isSet) := goodIn_app (goodIn_of _ (by decide +kernel)) ggX8_add_X8_isSet
set_option maxRecDepth 20000 in
theorem ggX8_add_X8_isMember : GoodIn wsX8_add wsX8_isMember := goodIn_r _ [10, 5, 6, 3, 7] (by decide +kernel) (by decide +kernel)
set_option maxRecDepth 20000 in
theorem gX8_add_X8_isMember : GoodIn wsX8_add (va_wsS RX8 69 yX8_isMember wsX8_isMember) := goodIn_app (goodIn_of _ (by decide +kernel)) ggX8_add_X8_isMember
set_option maxRecDepth 20000 in
theorem ggX8_add_X8_passes : GoodIn wsX8_add wsX8_passes := goodIn_r _ [14, 15, 24, 25, 26, 27, 28, 29, 30, 31, 32, 33, 34, 35, 36, 37, 38, 39, 40, 41, 42] (by decide +kernel) (by decide +kernel)
set_option maxRecDepth 20000 in
theorem gX8_add_X8_passes : GoodIn wsX8_add (wsV RX8 72 RX8 yX8_passes wsX8_passes) := goodIn_app (goodIn_of _ (by decide +kernel)) ggX8_add_X8_passes
set_option maxRecDepth 20000 in
theorem ggX8_add_X8_puts : GoodIn wsX8_add wsX8_puts := goodIn_r _ [19, 20, 21, 22, 3, 23, 24, 25, 26, 27, 28, 29, 30, 31, 32, 33, 34, 35, 36, 37, 38, 39, 40, 41, 42] (by decide +kernel) (by decide +kernel)
set_option maxRecDepth 20000 in
theorem gX8_add_X8_puts : GoodIn wsX8_add (wsV RX8 76 RX8 yX8_puts wsX8_puts) := goodIn_app (goodIn_of _ (by decide +kernel)) ggX8_add_X8_puts
theorem dX8_add_0 : decode cX8_add 0 = .ok (.aload_n 0, 1) := by decide +kernel
theorem dX8_add_1 : decode cX8_add 1 = .ok (.iload_n 1, 1) := by decide +kernel
theorem dX8_add_2 : decode cX8_add 2 = .ok (.invokestatic 65, 3) := by decide +kernel
theorem dX8_add_5 : decode cX8_add 5 = .ok (.iload_n 2, 1) := by decide +kernel
theorem dX8_add_6 : decode cX8_add 6 = .ok (.invokestatic 69, 3) := by decide +kernel
theorem dX8_add_9 : decode cX8_add 9 = .ok (.invokevirtual 72, 3) := by decide +kernel
theorem dX8_add_12 : decode cX8_add 12 = .ok (.ifCond .eq 17, 3) := by decide +kernel
theorem dX8_add_15 : decode cX8_add 15 = .ok (.aload_n 0, 1) := by decide +kernel
theorem dX8_add_16 : decode cX8_add 16 = .ok (.iload_n 1, 1) := by decide +kernel
theorem dX8_add_17 : decode cX8_add 17 = .ok (.iload_n 2, 1) := by decide +kernel
theorem dX8_add_18 : decode cX8_add 18 = .ok (.iconst 1, 1) := by decide +kernel
theorem dX8_add_19 : decode cX8_add 19 = .ok (.invokevirtual 76, 3) := by decide +kernel
theorem dX8_add_22 : decode cX8_add 22 = .ok (.ifCond .eq 7, 3) := by decide +kernel
theorem dX8_add_25 : decode cX8_add 25 = .ok (.iconst 1, 1) := by decide +kernel
theorem dX8_add_26 : decode cX8_add 26 = .ok (.goto 4, 3) := by decide +kernel
theorem dX8_add_29 : decode cX8_add 29 = .ok (.iconst 0, 1) := by decide +kernel
theorem dX8_add_30 : decode cX8_add 30 = .ok (.ireturn, 1) := by decide +kernel
set_option maxRecDepth 20000 in
theorem ggX8_remove_X8_isSet : GoodIn wsX8_remove wsX8_isSet := goodIn_r _ [4, 5, 6, 3, 7] (by decide +kernel) (by decide +kernel)
set_option maxRecDepth 20000 in
theorem gX8_remove_X8_isSet : GoodIn wsX8_remove (va_wsS RX8 65 yX8_isSet wsX8_isSet) := goodIn_app (goodIn_of _ (by decide +kernel)) ggX8_remove_X8_isSet
set_option maxRecDepth 20000 in
theorem ggX8_remove_X8_isMember : GoodIn wsX8_remove wsX8_isMember := goodIn_r _ [10, 5, 6, 3, 7] (by decide +kernel) (by decide +kernel)
set_option maxRecDepth 20000 in
theorem gX8_remove_X8_isMember : GoodIn wsX8_remove (va_wsS RX8 69 yX8_isMember wsX8_isMember) := goodIn_app (goodIn_of _ (by decide +kernel)) ggX8_remove_X8_isMember
set_option maxRecDepth 20000 in
theorem ggX8_remove_X8_passes : GoodIn wsX8_remove wsX8_passes := goodIn_r _ [14, 15, 24, 25, 26, 27, 28, 29, 30, 31, 32, 33, 34, 35, 36, 37, 38, 39, 40, 41, 42] (by decide +kernel) (by decide +kernel)
set_option maxRecDepth 20000 in
theorem gX8_remove_X8_passes : GoodIn wsX8_remove (wsV RX8 72 RX8 yX8_passes wsX8_passes) := goodIn_app (goodIn_of _ (by decide +kernel)) ggX8_remove_X8_passes
set_option maxRecDepth 20000 in
theorem ggX8_remove_X8_puts : GoodIn wsX8_remove wsX8_puts := goodIn_r _ [19, 20, 21, 22, 3, 23, 24, 25, 26, 27, 28, 29, 30, 31, 32, 33, 34, 35, 36, 37, 38, 39, 40, 41, 42] (by decide +kernel) (by decide +kernel)
set_option maxRecDepth 20000 in
theorem gX8_remove_X8_puts : GoodIn wsX8_remove (wsV RX8 76 RX8 yX8_puts wsX8_puts) := goodIn_app (goodIn_of _ (by decide +kernel)) ggX8_remove_X8_puts
theorem dX8_remove_0 : decode cX8_remove 0 = .ok (.aload_n 0, 1) := by decide +kernel
theorem dX8_remove_1 : decode cX8_remove 1 = .ok (.iload_n 1, 1) := by decide +kernel
theorem dX8_remove_2 : decode cX8_remove 2 = .ok (.invokestatic 65, 3) := by decide +kernel
theorem dX8_remove_5 : decode cX8_remove 5 = .ok (.iload_n 2, 1) := by decide +kernel
theorem dX8_remove_6 : decode cX8_remove 6 = .ok (.invokestatic 69, 3) := by decide +kernel
theorem dX8_remove_9 : decode cX8_remove 9 = .ok (.invokevirtual 72, 3) := by decide +kernel
theorem dX8_remove_12 : decode cX8_remove 12 = .ok (.ifCond .eq 17, 3) := by decide +kernel
theorem dX8_remove_15 : decode cX8_remove 15 = .ok (.aload_n 0, 1) := by decide +kernel
theorem dX8_remove_16 : decode cX8_remove 16 = .ok (.iload_n 1, 1) := by decide +kernel
theorem dX8_remove_17 : decode cX8_remove 17 = .ok (.iload_n 2, 1) := by decide +kernel
theorem dX8_remove_18 : decode cX8_remove 18 = .ok (.iconst 0, 1) := by decide +kernel
theorem dX8_remove_19 : decode cX8_remove 19 = .ok (.invokevirtual 76, 3) := by decide +kernel
theorem dX8_remove_22 : decode cX8_remove 22 = .ok (.ifCond .eq 7, 3) := by decide +kernel
theorem dX8_remove_25 : decode cX8_remove 25 = .ok (.iconst 1, 1) := by decide +kernel
theorem dX8_remove_26 : decode cX8_remove 26 = .ok (.goto 4, 3) := by decide +kernel
theorem dX8_remove_29 : decode cX8_remove 29 = .ok (.iconst 0, 1) := by decide +kernel
theorem dX8_remove_30 : decode cX8_remove 30 = .ok (.ireturn, 1) := by decide +kernel
set_option maxRecDepth 20000 in
theorem ggX8_has_X8_isSet : GoodIn wsX8_has wsX8_isSet := goodIn_r _ [5, 6, 7, 4, 8] (by decide +kernel) (by decide +kernel)
set_option maxRecDepth 20000 in
theorem gX8_has_X8_isSet : GoodIn wsX8_has (va_wsS RX8 65 yX8_isSet wsX8_isSet) := goodIn_app (goodIn_of _ (by decide +kernel)) ggX8_has_X8_isSet
set_option maxRecDepth 20000 in
theorem ggX8_has_X8_isMember : GoodIn wsX8_has wsX8_isMember := goodIn_r _ [11, 6, 7, 4, 8] (by decide +kernel) (by decide +kernel)
set_option maxRecDepth 20000 in
theorem gX8_has_X8_isMember : GoodIn wsX8_has (va_wsS RX8 69 yX8_isMember wsX8_isMember) := goodIn_app (goodIn_of _ (by decide +kernel)) ggX8_has_X8_isMember
set_option maxRecDepth 20000 in
theorem ggX8_has_X8_passes : GoodIn wsX8_has wsX8_passes := goodIn_r _ [15, 16, 20, 21, 22, 23, 24, 25, 26, 27, 28, 29, 30, 31, 32, 33, 34, 35, 36, 37, 38] (by decide +kernel) (by decide +kernel)
set_option maxRecDepth 20000 in
theorem gX8_has_X8_passes : GoodIn wsX8_has (wsV RX8 72 RX8 yX8_passes wsX8_passes) := goodIn_app (goodIn_of _ (by decide +kernel)) ggX8_has_X8_passes
set_option maxRecDepth 20000 in
theorem ggX8_has_X8_placeOfMember : GoodIn wsX8_has wsX8_placeOfMember := goodIn_r _ [19] (by decide +kernel) (by decide +kernel)
set_option maxRecDepth 20000 in
theorem gX8_has_X8_placeOfMember : GoodIn wsX8_has (va_wsS RX8 62 yX8_placeOfMember wsX8_placeOfMember) := goodIn_app (goodIn_of _ (by decide +kernel)) ggX8_has_X8_placeOfMember
theorem dX8_has_0 : decode cX8_has 0 = .ok (.aload_n 0, 1) := by decide +kernel
theorem dX8_has_1 : decode cX8_has 1 = .ok (.iload_n 1, 1) := by decide +kernel
theorem dX8_has_2 : decode cX8_has 2 = .ok (.invokestatic 65, 3) := by decide +kernel
theorem dX8_has_5 : decode cX8_has 5 = .ok (.iload_n 2, 1) := by decide +kernel
theorem dX8_has_6 : decode cX8_has 6 = .ok (.invokestatic 69, 3) := by decide +kernel
theorem dX8_has_9 : decode cX8_has 9 = .ok (.invokevirtual 72, 3) := by decide +kernel
theorem dX8_has_12 : decode cX8_has 12 = .ok (.ifCond .eq 21, 3) := by decide +kernel
theorem dX8_has_15 : decode cX8_has 15 = .ok (.aload_n 0, 1) := by decide +kernel
theorem dX8_has_16 : decode cX8_has 16 = .ok (.getfield 27, 3) := by decide +kernel
theorem dX8_has_19 : decode cX8_has 19 = .ok (.iload_n 1, 1) := by decide +kernel
theorem dX8_has_20 : decode cX8_has 20 = .ok (.aaload, 1) := by decide +kernel
theorem dX8_has_21 : decode cX8_has 21 = .ok (.iload_n 2, 1) := by decide +kernel
theorem dX8_has_22 : decode cX8_has 22 = .ok (.invokestatic 62, 3) := by decide +kernel
theorem dX8_has_25 : decode cX8_has 25 = .ok (.baload, 1) := by decide +kernel
theorem dX8_has_26 : decode cX8_has 26 = .ok (.ifCond .eq 7, 3) := by decide +kernel
theorem dX8_has_29 : decode cX8_has 29 = .ok (.iconst 1, 1) := by decide +kernel
theorem dX8_has_30 : decode cX8_has 30 = .ok (.goto 4, 3) := by decide +kernel
theorem dX8_has_33 : decode cX8_has 33 = .ok (.iconst 0, 1) := by decide +kernel
theorem dX8_has_34 : decode cX8_has 34 = .ok (.ireturn, 1) := by decide +kernel
set_option maxRecDepth 20000 in
theorem ggX8_size_X8_isSet : GoodIn wsX8_size wsX8_isSet := goodIn_r _ [5, 6, 7, 4, 8] (by decide +kernel) (by decide +kernel)
set_option maxRecDepth 20000 in
theorem gX8_size_X8_isSet : GoodIn wsX8_size (va_wsS RX8 65 yX8_isSet wsX8_isSet) := goodIn_app (goodIn_of _ (by decide +kernel)) ggX8_size_X8_isSet
set_option maxRecDepth 20000 in
theorem ggX8_size_X8_passes : GoodIn wsX8_size wsX8_passes := goodIn_r _ [12, 13, 17, 18, 19, 20, 21, 22, 23, 24, 25, 26, 27, 28, 29, 30, 31, 32, 33, 34, 35] (by decide +kernel) (by decide +kernel)
set_option maxRecDepth 20000 in
theorem gX8_size_X8_passes : GoodIn wsX8_size (wsV RX8 72 RX8 yX8_passes wsX8_passes) := goodIn_app (goodIn_of _ (by decide +kernel)) ggX8_size_X8_passes
set_option maxRecDepth 20000 in
theorem ggX8_size_X8_sizeOf : GoodIn wsX8_size wsX8_sizeOf := goodIn_r _ [16] (by decide +kernel) (by decide +kernel)
set_option maxRecDepth 20000 in
theorem gX8_size_X8_sizeOf : GoodIn wsX8_size (va_wsS RX8 80 yX8_sizeOf wsX8_sizeOf) := goodIn_app (goodIn_of _ (by decide +kernel)) ggX8_size_X8_sizeOf
theorem dX8_size_0 : decode cX8_size 0 = .ok (.aload_n 0, 1) := by decide +kernel
theorem dX8_size_1 : decode cX8_size 1 = .ok (.iload_n 1, 1) := by decide +kernel
theorem dX8_size_2 : decode cX8_size 2 = .ok (.invokestatic 65, 3) := by decide +kernel
theorem dX8_size_5 : decode cX8_size 5 = .ok (.iconst 1, 1) := by decide +kernel
theorem dX8_size_6 : decode cX8_size 6 = .ok (.invokevirtual 72, 3) := by decide +kernel
theorem dX8_size_9 : decode cX8_size 9 = .ok (.ifCond .eq 15, 3) := by decide +kernel
theorem dX8_size_12 : decode cX8_size 12 = .ok (.aload_n 0, 1) := by decide +kernel
theorem dX8_size_13 : decode cX8_size 13 = .ok (.getfield 27, 3) := by decide +kernel
theorem dX8_size_16 : decode cX8_size 16 = .ok (.iload_n 1, 1) := by decide +kernel
theorem dX8_size_17 : decode cX8_size 17 = .ok (.aaload, 1) := by decide +kernel
theorem dX8_size_18 : decode cX8_size 18 = .ok (.invokestatic 80, 3) := by decide +kernel
theorem dX8_size_21 : decode cX8_size 21 = .ok (.goto 4, 3) := by decide +kernel
theorem dX8_size_24 : decode cX8_size 24 = .ok (.iconst 0, 1) := by decide +kernel
theorem dX8_size_25 : decode cX8_size 25 = .ok (.ireturn, 1) := by decide +kernel
set_option maxRecDepth 20000 in
theorem ggX8_sum_X8_isSet : GoodIn wsX8_sum wsX8_isSet := goodIn_r _ [5, 6, 7, 4, 8] (by decide +kernel) (by decide +kernel)
set_option maxRecDepth 20000 in
theorem gX8_sum_X8_isSet : GoodIn wsX8_sum (va_wsS RX8 65 yX8_isSet wsX8_isSet) := goodIn_app (goodIn_of _ (by decide +kernel)) ggX8_sum_X8_isSet
set_option maxRecDepth 20000 in
theorem ggX8_sum_X8_passes : GoodIn wsX8_sum wsX8_passes := goodIn_r _ [12, 13, 20, 21, 22, 23, 24, 25, 26, 27, 28, 29, 30, 31, 32, 33, 34, 35, 36, 37, 38] (by decide +kernel) (by decide +kernel)
set_option maxRecDepth 20000 in
theorem gX8_sum_X8_passes : GoodIn wsX8_sum (wsV RX8 72 RX8 yX8_passes wsX8_passes) := goodIn_app (goodIn_of _ (by decide +kernel)) ggX8_sum_X8_passes
set_option maxRecDepth 20000 in
theorem ggX8_sum_X8_sumOf : GoodIn wsX8_sum wsX8_sumOf := goodIn_r _ [16, 17, 18, 4, 19] (by decide +kernel) (by decide +kernel)
set_option maxRecDepth 20000 in
theorem gX8_sum_X8_sumOf : GoodIn wsX8_sum (va_wsS RX8 84 yX8_sumOf wsX8_sumOf) := goodIn_app (goodIn_of _ (by decide +kernel)) ggX8_sum_X8_sumOf
theorem dX8_sum_0 : decode cX8_sum 0 = .ok (.aload_n 0, 1) := by decide +kernel
theorem dX8_sum_1 : decode cX8_sum 1 = .ok (.iload_n 1, 1) := by decide +kernel
theorem dX8_sum_2 : decode cX8_sum 2 = .ok (.invokestatic 65, 3) := by decide +kernel
theorem dX8_sum_5 : decode cX8_sum 5 = .ok (.iconst 1, 1) := by decide +kernel
theorem dX8_sum_6 : decode cX8_sum 6 = .ok (.invokevirtual 72, 3) := by decide +kernel
theorem dX8_sum_9 : decode cX8_sum 9 = .ok (.ifCond .eq 15, 3) := by decide +kernel
theorem dX8_sum_12 : decode cX8_sum 12 = .ok (.aload_n 0, 1) := by decide +kernel
theorem dX8_sum_13 : decode cX8_sum 13 = .ok (.getfield 27, 3) := by decide +kernel
theorem dX8_sum_16 : decode cX8_sum 16 = .ok (.iload_n 1, 1) := by decide +kernel
theorem dX8_sum_17 : decode cX8_sum 17 = .ok (.aaload, 1) := by decide +kernel
theorem dX8_sum_18 : decode cX8_sum 18 = .ok (.invokestatic 84, 3) := by decide +kernel
theorem dX8_sum_21 : decode cX8_sum 21 = .ok (.goto 4, 3) := by decide +kernel
theorem dX8_sum_24 : decode cX8_sum 24 = .ok (.iconst 0, 1) := by decide +kernel
theorem dX8_sum_25 : decode cX8_sum 25 = .ok (.ireturn, 1) := by decide +kernel
set_option maxRecDepth 20000 in
theorem ggX8_clear_X8_isSet : GoodIn wsX8_clear wsX8_isSet := goodIn_r _ [5, 6, 7, 4, 8] (by decide +kernel) (by decide +kernel)
set_option maxRecDepth 20000 in
theorem gX8_clear_X8_isSet : GoodIn wsX8_clear (va_wsS RX8 65 yX8_isSet wsX8_isSet) := goodIn_app (goodIn_of _ (by decide +kernel)) ggX8_clear_X8_isSet
set_option maxRecDepth 20000 in
theorem ggX8_clear_X8_passes : GoodIn wsX8_clear wsX8_passes := goodIn_r _ [12, 13, 20, 21, 22, 23, 24, 25, 26, 27, 28, 29, 30, 31, 32, 33, 34, 35, 36, 37, 38] (by decide +kernel) (by decide +kernel)
set_option maxRecDepth 20000 in
theorem gX8_clear_X8_passes : GoodIn wsX8_clear (wsV RX8 72 RX8 yX8_passes wsX8_passes) := goodIn_app (goodIn_of _ (by decide +kernel)) ggX8_clear_X8_passes
set_option maxRecDepth 20000 in
theorem ggX8_clear_X8_sizeOf : GoodIn wsX8_clear wsX8_sizeOf := goodIn_r _ [16] (by decide +kernel) (by decide +kernel)
set_option maxRecDepth 20000 in
theorem gX8_clear_X8_sizeOf : GoodIn wsX8_clear (va_wsS RX8 80 yX8_sizeOf wsX8_sizeOf) := goodIn_app (goodIn_of _ (by decide +kernel)) ggX8_clear_X8_sizeOf
set_option maxRecDepth 20000 in
theorem ggX8_clear_X8_joins : GoodIn wsX8_clear wsX8_joins := goodIn_r _ [19] (by decide +kernel) (by decide +kernel)
set_option maxRecDepth 20000 in
theorem gX8_clear_X8_joins : GoodIn wsX8_clear (va_wsS RX8 87 yX8_joins wsX8_joins) := goodIn_app (goodIn_of _ (by decide +kernel)) ggX8_clear_X8_joins
theorem dX8_clear_0 : decode cX8_clear 0 = .ok (.aload_n 0, 1) := by decide +kernel
theorem dX8_clear_1 : decode cX8_clear 1 = .ok (.iload_n 1, 1) := by decide +kernel
theorem dX8_clear_2 : decode cX8_clear 2 = .ok (.invokestatic 65, 3) := by decide +kernel
theorem dX8_clear_5 : decode cX8_clear 5 = .ok (.iconst 1, 1) := by decide +kernel
theorem dX8_clear_6 : decode cX8_clear 6 = .ok (.invokevirtual 72, 3) := by decide +kernel
theorem dX8_clear_9 : decode cX8_clear 9 = .ok (.ifCond .ne 5, 3) := by decide +kernel
theorem dX8_clear_12 : decode cX8_clear 12 = .ok (.iconst 0, 1) := by decide +kernel
theorem dX8_clear_13 : decode cX8_clear 13 = .ok (.ireturn, 1) := by decide +kernel
theorem dX8_clear_14 : decode cX8_clear 14 = .ok (.aload_n 0, 1) := by decide +kernel
theorem dX8_clear_15 : decode cX8_clear 15 = .ok (.getfield 27, 3) := by decide +kernel
theorem dX8_clear_18 : decode cX8_clear 18 = .ok (.iload_n 1, 1) := by decide +kernel
theorem dX8_clear_19 : decode cX8_clear 19 = .ok (.aaload, 1) := by decide +kernel
theorem dX8_clear_20 : decode cX8_clear 20 = .ok (.invokestatic 80, 3) := by decide +kernel
theorem dX8_clear_23 : decode cX8_clear 23 = .ok (.istore_n 2, 1) := by decide +kernel
theorem dX8_clear_24 : decode cX8_clear 24 = .ok (.aload_n 0, 1) := by decide +kernel
theorem dX8_clear_25 : decode cX8_clear 25 = .ok (.getfield 27, 3) := by decide +kernel
theorem dX8_clear_28 : decode cX8_clear 28 = .ok (.iload_n 1, 1) := by decide +kernel
theorem dX8_clear_29 : decode cX8_clear 29 = .ok (.aaload, 1) := by decide +kernel
theorem dX8_clear_30 : decode cX8_clear 30 = .ok (.aload_n 0, 1) := by decide +kernel
theorem dX8_clear_31 : decode cX8_clear 31 = .ok (.getfield 27, 3) := by decide +kernel
theorem dX8_clear_34 : decode cX8_clear 34 = .ok (.iload_n 1, 1) := by decide +kernel
theorem dX8_clear_35 : decode cX8_clear 35 = .ok (.aaload, 1) := by decide +kernel
theorem dX8_clear_36 : decode cX8_clear 36 = .ok (.iconst 2, 1) := by decide +kernel
theorem dX8_clear_37 : decode cX8_clear 37 = .ok (.aload_n 0, 1) := by decide +kernel
theorem dX8_clear_38 : decode cX8_clear 38 = .ok (.getfield 27, 3) := by decide +kernel
theorem dX8_clear_41 : decode cX8_clear 41 = .ok (.iload_n 1, 1) := by decide +kernel
theorem dX8_clear_42 : decode cX8_clear 42 = .ok (.aaload, 1) := by decide +kernel
theorem dX8_clear_43 : decode cX8_clear 43 = .ok (.invokestatic 87, 3) := by decide +kernel
theorem dX8_clear_46 : decode cX8_clear 46 = .ok (.iload_n 2, 1) := by decide +kernel
theorem dX8_clear_47 : decode cX8_clear 47 = .ok (.ireturn, 1) := by decide +kernel
set_option maxRecDepth 20000 in
theorem ggX8_fill_X8_isSet : GoodIn wsX8_fill wsX8_isSet := goodIn_r _ [4, 5, 6, 3, 7] (by decide +kernel) (by decide +kernel)
set_option maxRecDepth 20000 in
theorem gX8_fill_X8_isSet : GoodIn wsX8_fill (va_wsS RX8 65 yX8_isSet wsX8_isSet) := goodIn_app (goodIn_of _ (by decide +kernel)) ggX8_fill_X8_isSet
set_option maxRecDepth 20000 in
theorem ggX8_fill_X8_in : GoodIn wsX8_fill wsX8_in := goodIn_r _ [7] (by decide +kernel) (by decide +kernel)
set_option maxRecDepth 20000 in
theorem gX8_fill_X8_in : GoodIn wsX8_fill (va_wsS RX8 7 yX8_in wsX8_in) := goodIn_app (goodIn_of _ (by decide +kernel)) ggX8_fill_X8_in
set_option maxRecDepth 20000 in
theorem ggX8_fill_X8_passes : GoodIn wsX8_fill wsX8_passes := goodIn_r _ [11, 12, 21, 22, 23, 24, 25, 26, 27, 28, 29, 30, 31, 32, 33, 34, 35, 36, 37, 38, 39] (by decide +kernel) (by decide +kernel)
set_option maxRecDepth 20000 in
theorem gX8_fill_X8_passes : GoodIn wsX8_fill (wsV RX8 72 RX8 yX8_passes wsX8_passes) := goodIn_app (goodIn_of _ (by decide +kernel)) ggX8_fill_X8_passes
set_option maxRecDepth 20000 in
theorem ggX8_fill_X8_puts : GoodIn wsX8_fill wsX8_puts := goodIn_r _ [16, 17, 18, 19, 3, 20, 21, 22, 23, 24, 25, 26, 27, 28, 29, 30, 31, 32, 33, 34, 35, 36, 37, 38, 39] (by decide +kernel) (by decide +kernel)
set_option maxRecDepth 20000 in
theorem gX8_fill_X8_puts : GoodIn wsX8_fill (wsV RX8 76 RX8 yX8_puts wsX8_puts) := goodIn_app (goodIn_of _ (by decide +kernel)) ggX8_fill_X8_puts
theorem dX8_fill_0 : decode cX8_fill 0 = .ok (.aload_n 0, 1) := by decide +kernel
theorem dX8_fill_1 : decode cX8_fill 1 = .ok (.iload_n 1, 1) := by decide +kernel
theorem dX8_fill_2 : decode cX8_fill 2 = .ok (.invokestatic 65, 3) := by decide +kernel
theorem dX8_fill_5 : decode cX8_fill 5 = .ok (.iload_n 2, 1) := by decide +kernel
theorem dX8_fill_6 : decode cX8_fill 6 = .ok (.bipush (-50), 2) := by decide +kernel
theorem dX8_fill_8 : decode cX8_fill 8 = .ok (.bipush 50, 2) := by decide +kernel
theorem dX8_fill_10 : decode cX8_fill 10 = .ok (.invokestatic 7, 3) := by decide +kernel
theorem dX8_fill_13 : decode cX8_fill 13 = .ok (.ifCond .eq 29, 3) := by decide +kernel
theorem dX8_fill_16 : decode cX8_fill 16 = .ok (.iload_n 3, 1) := by decide +kernel
theorem dX8_fill_17 : decode cX8_fill 17 = .ok (.bipush (-100), 2) := by decide +kernel
theorem dX8_fill_19 : decode cX8_fill 19 = .ok (.bipush 100, 2) := by decide +kernel
theorem dX8_fill_21 : decode cX8_fill 21 = .ok (.invokestatic 7, 3) := by decide +kernel
theorem dX8_fill_24 : decode cX8_fill 24 = .ok (.ifCond .eq 18, 3) := by decide +kernel
theorem dX8_fill_27 : decode cX8_fill 27 = .ok (.iload 4, 2) := by decide +kernel
theorem dX8_fill_29 : decode cX8_fill 29 = .ok (.iconst 0, 1) := by decide +kernel
theorem dX8_fill_30 : decode cX8_fill 30 = .ok (.bipush 101, 2) := by decide +kernel
theorem dX8_fill_32 : decode cX8_fill 32 = .ok (.invokestatic 7, 3) := by decide +kernel
theorem dX8_fill_35 : decode cX8_fill 35 = .ok (.ifCond .eq 7, 3) := by decide +kernel
theorem dX8_fill_38 : decode cX8_fill 38 = .ok (.iconst 1, 1) := by decide +kernel
theorem dX8_fill_39 : decode cX8_fill 39 = .ok (.goto 4, 3) := by decide +kernel
theorem dX8_fill_42 : decode cX8_fill 42 = .ok (.iconst 0, 1) := by decide +kernel
theorem dX8_fill_43 : decode cX8_fill 43 = .ok (.invokevirtual 72, 3) := by decide +kernel
theorem dX8_fill_46 : decode cX8_fill 46 = .ok (.ifCond .ne 5, 3) := by decide +kernel
theorem dX8_fill_49 : decode cX8_fill 49 = .ok (.iconst 0, 1) := by decide +kernel
theorem dX8_fill_50 : decode cX8_fill 50 = .ok (.ireturn, 1) := by decide +kernel
theorem dX8_fill_51 : decode cX8_fill 51 = .ok (.iconst 0, 1) := by decide +kernel
theorem dX8_fill_52 : decode cX8_fill 52 = .ok (.istore 5, 2) := by decide +kernel
theorem dX8_fill_54 : decode cX8_fill 54 = .ok (.iconst 0, 1) := by decide +kernel
theorem dX8_fill_55 : decode cX8_fill 55 = .ok (.istore 6, 2) := by decide +kernel
theorem dX8_fill_57 : decode cX8_fill 57 = .ok (.iload 6, 2) := by decide +kernel
theorem dX8_fill_59 : decode cX8_fill 59 = .ok (.iload 4, 2) := by decide +kernel
theorem dX8_fill_61 : decode cX8_fill 61 = .ok (.if_icmp .ge 50, 3) := by decide +kernel
theorem dX8_fill_64 : decode cX8_fill 64 = .ok (.iload_n 2, 1) := by decide +kernel
theorem dX8_fill_65 : decode cX8_fill 65 = .ok (.iload 6, 2) := by decide +kernel
theorem dX8_fill_67 : decode cX8_fill 67 = .ok (.iload_n 3, 1) := by decide +kernel
theorem dX8_fill_68 : decode cX8_fill 68 = .ok (.imul, 1) := by decide +kernel
theorem dX8_fill_69 : decode cX8_fill 69 = .ok (.iadd, 1) := by decide +kernel
theorem dX8_fill_70 : decode cX8_fill 70 = .ok (.istore 7, 2) := by decide +kernel
theorem dX8_fill_72 : decode cX8_fill 72 = .ok (.iload 5, 2) := by decide +kernel
theorem dX8_fill_74 : decode cX8_fill 74 = .ok (.iload 7, 2) := by decide +kernel
theorem dX8_fill_76 : decode cX8_fill 76 = .ok (.bipush (-50), 2) := by decide +kernel
theorem dX8_fill_78 : decode cX8_fill 78 = .ok (.bipush 50, 2) := by decide +kernel
theorem dX8_fill_80 : decode cX8_fill 80 = .ok (.invokestatic 7, 3) := by decide +kernel
theorem dX8_fill_83 : decode cX8_fill 83 = .ok (.ifCond .eq 18, 3) := by decide +kernel
theorem dX8_fill_86 : decode cX8_fill 86 = .ok (.aload_n 0, 1) := by decide +kernel
theorem dX8_fill_87 : decode cX8_fill 87 = .ok (.iload_n 1, 1) := by decide +kernel
theorem dX8_fill_88 : decode cX8_fill 88 = .ok (.iload 7, 2) := by decide +kernel
theorem dX8_fill_90 : decode cX8_fill 90 = .ok (.iconst 1, 1) := by decide +kernel
theorem dX8_fill_91 : decode cX8_fill 91 = .ok (.invokevirtual 76, 3) := by decide +kernel
theorem dX8_fill_94 : decode cX8_fill 94 = .ok (.ifCond .eq 7, 3) := by decide +kernel
theorem dX8_fill_97 : decode cX8_fill 97 = .ok (.iconst 1, 1) := by decide +kernel
theorem dX8_fill_98 : decode cX8_fill 98 = .ok (.goto 4, 3) := by decide +kernel
theorem dX8_fill_101 : decode cX8_fill 101 = .ok (.iconst 0, 1) := by decide +kernel
theorem dX8_fill_102 : decode cX8_fill 102 = .ok (.iadd, 1) := by decide +kernel
theorem dX8_fill_103 : decode cX8_fill 103 = .ok (.istore 5, 2) := by decide +kernel
theorem dX8_fill_105 : decode cX8_fill 105 = .ok (.iinc 6 1, 3) := by decide +kernel
theorem dX8_fill_108 : decode cX8_fill 108 = .ok (.goto (-51), 3) := by decide +kernel
theorem dX8_fill_111 : decode cX8_fill 111 = .ok (.iload 5, 2) := by decide +kernel
theorem dX8_fill_113 : decode cX8_fill 113 = .ok (.ireturn, 1) := by decide +kernel
theorem dX8_placeAt_0 : decode cX8_placeAt 0 = .ok (.iload_n 1, 1) := by decide +kernel
theorem dX8_placeAt_1 : decode cX8_placeAt 1 = .ok (.istore_n 2, 1) := by decide +kernel
theorem dX8_placeAt_2 : decode cX8_placeAt 2 = .ok (.iconst 0, 1) := by decide +kernel
theorem dX8_placeAt_3 : decode cX8_placeAt 3 = .ok (.istore_n 3, 1) := by decide +kernel
theorem dX8_placeAt_4 : decode cX8_placeAt 4 = .ok (.iload_n 3, 1) := by decide +kernel
theorem dX8_placeAt_5 : decode cX8_placeAt 5 = .ok (.bipush 102, 2) := by decide +kernel
theorem dX8_placeAt_7 : decode cX8_placeAt 7 = .ok (.if_icmp .ge 33, 3) := by decide +kernel
theorem dX8_placeAt_10 : decode cX8_placeAt 10 = .ok (.aload_n 0, 1) := by decide +kernel
theorem dX8_placeAt_11 : decode cX8_placeAt 11 = .ok (.iload_n 3, 1) := by decide +kernel
theorem dX8_placeAt_12 : decode cX8_placeAt 12 = .ok (.baload, 1) := by decide +kernel
theorem dX8_placeAt_13 : decode cX8_placeAt 13 = .ok (.ifCond .eq 7, 3) := by decide +kernel
theorem dX8_placeAt_16 : decode cX8_placeAt 16 = .ok (.iload_n 2, 1) := by decide +kernel
theorem dX8_placeAt_17 : decode cX8_placeAt 17 = .ok (.ifCond .le 23, 3) := by decide +kernel
theorem dX8_placeAt_20 : decode cX8_placeAt 20 = .ok (.iload_n 2, 1) := by decide +kernel
theorem dX8_placeAt_21 : decode cX8_placeAt 21 = .ok (.aload_n 0, 1) := by decide +kernel
theorem dX8_placeAt_22 : decode cX8_placeAt 22 = .ok (.iload_n 3, 1) := by decide +kernel
theorem dX8_placeAt_23 : decode cX8_placeAt 23 = .ok (.baload, 1) := by decide +kernel
theorem dX8_placeAt_24 : decode cX8_placeAt 24 = .ok (.ifCond .eq 7, 3) := by decide +kernel
theorem dX8_placeAt_27 : decode cX8_placeAt 27 = .ok (.iconst 1, 1) := by decide +kernel
theorem dX8_placeAt_28 : decode cX8_placeAt 28 = .ok (.goto 4, 3) := by decide +kernel
theorem dX8_placeAt_31 : decode cX8_placeAt 31 = .ok (.iconst 0, 1) := by decide +kernel
theorem dX8_placeAt_32 : decode cX8_placeAt 32 = .ok (.isub, 1) := by decide +kernel
theorem dX8_placeAt_33 : decode cX8_placeAt 33 = .ok (.istore_n 2, 1) := by decide +kernel
theorem dX8_placeAt_34 : decode cX8_placeAt 34 = .ok (.iinc 3 1, 3) := by decide +kernel
theorem dX8_placeAt_37 : decode cX8_placeAt 37 = .ok (.goto (-33), 3) := by decide +kernel
theorem dX8_placeAt_40 : decode cX8_placeAt 40 = .ok (.iload_n 3, 1) := by decide +kernel
theorem dX8_placeAt_41 : decode cX8_placeAt 41 = .ok (.ireturn, 1) := by decide +kernel
set_option maxRecDepth 20000 in
theorem ggX8_memberAt_X8_isSet : GoodIn wsX8_memberAt wsX8_isSet := goodIn_r _ [5, 6, 7, 4, 8] (by decide +kernel) (by decide +kernel)
set_option maxRecDepth 20000 in
theorem gX8_memberAt_X8_isSet : GoodIn wsX8_memberAt (va_wsS RX8 65 yX8_isSet wsX8_isSet) := goodIn_app (goodIn_of _ (by decide +kernel)) ggX8_memberAt_X8_isSet
set_option maxRecDepth 20000 in
theorem ggX8_memberAt_X8_placeAt : GoodIn wsX8_memberAt wsX8_placeAt := goodIn_r _ [11] (by decide +kernel) (by decide +kernel)
set_option maxRecDepth 20000 in
theorem gX8_memberAt_X8_placeAt : GoodIn wsX8_memberAt (va_wsS RX8 91 yX8_placeAt wsX8_placeAt) := goodIn_app (goodIn_of _ (by decide +kernel)) ggX8_memberAt_X8_placeAt
set_option maxRecDepth 20000 in
theorem ggX8_memberAt_X8_passes : GoodIn wsX8_memberAt wsX8_passes := goodIn_r _ [15, 16, 20, 21, 22, 23, 24, 25, 26, 27, 28, 29, 30, 31, 32, 33, 34, 35, 36, 37, 38] (by decide +kernel) (by decide +kernel)
set_option maxRecDepth 20000 in
theorem gX8_memberAt_X8_passes : GoodIn wsX8_memberAt (wsV RX8 72 RX8 yX8_passes wsX8_passes) := goodIn_app (goodIn_of _ (by decide +kernel)) ggX8_memberAt_X8_passes
set_option maxRecDepth 20000 in
theorem ggX8_memberAt_X8_memberOf : GoodIn wsX8_memberAt wsX8_memberOf := goodIn_r _ [19] (by decide +kernel) (by decide +kernel)
set_option maxRecDepth 20000 in
theorem gX8_memberAt_X8_memberOf : GoodIn wsX8_memberAt (va_wsS RX8 11 yX8_memberOf wsX8_memberOf) := goodIn_app (goodIn_of _ (by decide +kernel)) ggX8_memberAt_X8_memberOf
theorem dX8_memberAt_0 : decode cX8_memberAt 0 = .ok (.iload_n 1, 1) := by decide +kernel
theorem dX8_memberAt_1 : decode cX8_memberAt 1 = .ok (.invokestatic 65, 3) := by decide +kernel
theorem dX8_memberAt_4 : decode cX8_memberAt 4 = .ok (.istore_n 3, 1) := by decide +kernel
theorem dX8_memberAt_5 : decode cX8_memberAt 5 = .ok (.iload_n 3, 1) := by decide +kernel
theorem dX8_memberAt_6 : decode cX8_memberAt 6 = .ok (.ifCond .eq 20, 3) := by decide +kernel
theorem dX8_memberAt_9 : decode cX8_memberAt 9 = .ok (.iload_n 2, 1) := by decide +kernel
theorem dX8_memberAt_10 : decode cX8_memberAt 10 = .ok (.ifCond .lt 16, 3) := by decide +kernel
theorem dX8_memberAt_13 : decode cX8_memberAt 13 = .ok (.aload_n 0, 1) := by decide +kernel
theorem dX8_memberAt_14 : decode cX8_memberAt 14 = .ok (.getfield 27, 3) := by decide +kernel
theorem dX8_memberAt_17 : decode cX8_memberAt 17 = .ok (.iload_n 1, 1) := by decide +kernel
theorem dX8_memberAt_18 : decode cX8_memberAt 18 = .ok (.aaload, 1) := by decide +kernel
theorem dX8_memberAt_19 : decode cX8_memberAt 19 = .ok (.iload_n 2, 1) := by decide +kernel
theorem dX8_memberAt_20 : decode cX8_memberAt 20 = .ok (.invokestatic 91, 3) := by decide +kernel
theorem dX8_memberAt_23 : decode cX8_memberAt 23 = .ok (.goto 5, 3) := by decide +kernel
theorem dX8_memberAt_26 : decode cX8_memberAt 26 = .ok (.bipush 102, 2) := by decide +kernel
theorem dX8_memberAt_28 : decode cX8_memberAt 28 = .ok (.istore 4, 2) := by decide +kernel
theorem dX8_memberAt_30 : decode cX8_memberAt 30 = .ok (.aload_n 0, 1) := by decide +kernel
theorem dX8_memberAt_31 : decode cX8_memberAt 31 = .ok (.iload_n 3, 1) := by decide +kernel
theorem dX8_memberAt_32 : decode cX8_memberAt 32 = .ok (.iload 4, 2) := by decide +kernel
theorem dX8_memberAt_34 : decode cX8_memberAt 34 = .ok (.bipush 102, 2) := by decide +kernel
theorem dX8_memberAt_36 : decode cX8_memberAt 36 = .ok (.if_icmp .ge 7, 3) := by decide +kernel
theorem dX8_memberAt_39 : decode cX8_memberAt 39 = .ok (.iconst 1, 1) := by decide +kernel
theorem dX8_memberAt_40 : decode cX8_memberAt 40 = .ok (.goto 4, 3) := by decide +kernel
theorem dX8_memberAt_43 : decode cX8_memberAt 43 = .ok (.iconst 0, 1) := by decide +kernel
theorem dX8_memberAt_44 : decode cX8_memberAt 44 = .ok (.invokevirtual 72, 3) := by decide +kernel
theorem dX8_memberAt_47 : decode cX8_memberAt 47 = .ok (.ifCond .eq 11, 3) := by decide +kernel
theorem dX8_memberAt_50 : decode cX8_memberAt 50 = .ok (.iload 4, 2) := by decide +kernel
theorem dX8_memberAt_52 : decode cX8_memberAt 52 = .ok (.invokestatic 11, 3) := by decide +kernel
theorem dX8_memberAt_55 : decode cX8_memberAt 55 = .ok (.goto 4, 3) := by decide +kernel
theorem dX8_memberAt_58 : decode cX8_memberAt 58 = .ok (.iconst 0, 1) := by decide +kernel
theorem dX8_memberAt_59 : decode cX8_memberAt 59 = .ok (.ireturn, 1) := by decide +kernel
set_option maxRecDepth 20000 in
theorem ggX8_least_X8_isSet : GoodIn wsX8_least wsX8_isSet := goodIn_r _ [5, 6, 7, 4, 8] (by decide +kernel) (by decide +kernel)
set_option maxRecDepth 20000 in
theorem gX8_least_X8_isSet : GoodIn wsX8_least (va_wsS RX8 65 yX8_isSet wsX8_isSet) := goodIn_app (goodIn_of _ (by decide +kernel)) ggX8_least_X8_isSet
set_option maxRecDepth 20000 in
theorem ggX8_least_X8_passes : GoodIn wsX8_least wsX8_passes := goodIn_r _ [12, 13, 17, 18, 19, 20, 21, 22, 23, 24, 25, 26, 27, 28, 29, 30, 31, 32, 33, 34, 35] (by decide +kernel) (by decide +kernel)
set_option maxRecDepth 20000 in
theorem gX8_least_X8_passes : GoodIn wsX8_least (wsV RX8 72 RX8 yX8_passes wsX8_passes) := goodIn_app (goodIn_of _ (by decide +kernel)) ggX8_least_X8_passes
set_option maxRecDepth 20000 in
theorem ggX8_least_X8_memberOf : GoodIn wsX8_least wsX8_memberOf := goodIn_r _ [16] (by decide +kernel) (by decide +kernel)
set_option maxRecDepth 20000 in
theorem gX8_least_X8_memberOf : GoodIn wsX8_least (va_wsS RX8 11 yX8_memberOf wsX8_memberOf) := goodIn_app (goodIn_of _ (by decide +kernel)) ggX8_least_X8_memberOf
theorem dX8_least_0 : decode cX8_least 0 = .ok (.iload_n 1, 1) := by decide +kernel
theorem dX8_least_1 : decode cX8_least 1 = .ok (.invokestatic 65, 3) := by decide +kernel
theorem dX8_least_4 : decode cX8_least 4 = .ok (.istore_n 2, 1) := by decide +kernel
theorem dX8_least_5 : decode cX8_least 5 = .ok (.iconst 1, 1) := by decide +kernel
theorem dX8_least_6 : decode cX8_least 6 = .ok (.istore_n 3, 1) := by decide +kernel
theorem dX8_least_7 : decode cX8_least 7 = .ok (.iload_n 2, 1) := by decide +kernel
theorem dX8_least_8 : decode cX8_least 8 = .ok (.ifCond .eq 26, 3) := by decide +kernel
theorem dX8_least_11 : decode cX8_least 11 = .ok (.iload_n 3, 1) := by decide +kernel
theorem dX8_least_12 : decode cX8_least 12 = .ok (.bipush 102, 2) := by decide +kernel
theorem dX8_least_14 : decode cX8_least 14 = .ok (.if_icmp .ge 20, 3) := by decide +kernel
theorem dX8_least_17 : decode cX8_least 17 = .ok (.aload_n 0, 1) := by decide +kernel
theorem dX8_least_18 : decode cX8_least 18 = .ok (.getfield 27, 3) := by decide +kernel
theorem dX8_least_21 : decode cX8_least 21 = .ok (.iload_n 1, 1) := by decide +kernel
theorem dX8_least_22 : decode cX8_least 22 = .ok (.aaload, 1) := by decide +kernel
theorem dX8_least_23 : decode cX8_least 23 = .ok (.iload_n 3, 1) := by decide +kernel
theorem dX8_least_24 : decode cX8_least 24 = .ok (.baload, 1) := by decide +kernel
theorem dX8_least_25 : decode cX8_least 25 = .ok (.ifCond .ne 9, 3) := by decide +kernel
theorem dX8_least_28 : decode cX8_least 28 = .ok (.iinc 3 1, 3) := by decide +kernel
theorem dX8_least_31 : decode cX8_least 31 = .ok (.goto (-24), 3) := by decide +kernel
theorem dX8_least_34 : decode cX8_least 34 = .ok (.aload_n 0, 1) := by decide +kernel
theorem dX8_least_35 : decode cX8_least 35 = .ok (.iload_n 2, 1) := by decide +kernel
theorem dX8_least_36 : decode cX8_least 36 = .ok (.iload_n 3, 1) := by decide +kernel
theorem dX8_least_37 : decode cX8_least 37 = .ok (.bipush 102, 2) := by decide +kernel
theorem dX8_least_39 : decode cX8_least 39 = .ok (.if_icmp .ge 7, 3) := by decide +kernel
theorem dX8_least_42 : decode cX8_least 42 = .ok (.iconst 1, 1) := by decide +kernel
theorem dX8_least_43 : decode cX8_least 43 = .ok (.goto 4, 3) := by decide +kernel
theorem dX8_least_46 : decode cX8_least 46 = .ok (.iconst 0, 1) := by decide +kernel
theorem dX8_least_47 : decode cX8_least 47 = .ok (.invokevirtual 72, 3) := by decide +kernel
theorem dX8_least_50 : decode cX8_least 50 = .ok (.ifCond .eq 10, 3) := by decide +kernel
theorem dX8_least_53 : decode cX8_least 53 = .ok (.iload_n 3, 1) := by decide +kernel
theorem dX8_least_54 : decode cX8_least 54 = .ok (.invokestatic 11, 3) := by decide +kernel
theorem dX8_least_57 : decode cX8_least 57 = .ok (.goto 4, 3) := by decide +kernel
theorem dX8_least_60 : decode cX8_least 60 = .ok (.iconst 0, 1) := by decide +kernel
theorem dX8_least_61 : decode cX8_least 61 = .ok (.ireturn, 1) := by decide +kernel
set_option maxRecDepth 20000 in
theorem ggX8_greatest_X8_isSet : GoodIn wsX8_greatest wsX8_isSet := goodIn_r _ [5, 6, 7, 4, 8] (by decide +kernel) (by decide +kernel)
set_option maxRecDepth 20000 in
theorem gX8_greatest_X8_isSet : GoodIn wsX8_greatest (va_wsS RX8 65 yX8_isSet wsX8_isSet) := goodIn_app (goodIn_of _ (by decide +kernel)) ggX8_greatest_X8_isSet
set_option maxRecDepth 20000 in
theorem ggX8_greatest_X8_passes : GoodIn wsX8_greatest wsX8_passes := goodIn_r _ [12, 13, 17, 18, 19, 20, 21, 22, 23, 24, 25, 26, 27, 28, 29, 30, 31, 32, 33, 34, 35] (by decide +kernel) (by decide +kernel)
set_option maxRecDepth 20000 in
theorem gX8_greatest_X8_passes : GoodIn wsX8_greatest (wsV RX8 72 RX8 yX8_passes wsX8_passes) := goodIn_app (goodIn_of _ (by decide +kernel)) ggX8_greatest_X8_passes
set_option maxRecDepth 20000 in
theorem ggX8_greatest_X8_memberOf : GoodIn wsX8_greatest wsX8_memberOf := goodIn_r _ [16] (by decide +kernel) (by decide +kernel)
set_option maxRecDepth 20000 in
theorem gX8_greatest_X8_memberOf : GoodIn wsX8_greatest (va_wsS RX8 11 yX8_memberOf wsX8_memberOf) := goodIn_app (goodIn_of _ (by decide +kernel)) ggX8_greatest_X8_memberOf
theorem dX8_greatest_0 : decode cX8_greatest 0 = .ok (.iload_n 1, 1) := by decide +kernel
theorem dX8_greatest_1 : decode cX8_greatest 1 = .ok (.invokestatic 65, 3) := by decide +kernel
theorem dX8_greatest_4 : decode cX8_greatest 4 = .ok (.istore_n 2, 1) := by decide +kernel
theorem dX8_greatest_5 : decode cX8_greatest 5 = .ok (.bipush 101, 2) := by decide +kernel
theorem dX8_greatest_7 : decode cX8_greatest 7 = .ok (.istore_n 3, 1) := by decide +kernel
theorem dX8_greatest_8 : decode cX8_greatest 8 = .ok (.iload_n 2, 1) := by decide +kernel
theorem dX8_greatest_9 : decode cX8_greatest 9 = .ok (.ifCond .eq 24, 3) := by decide +kernel
theorem dX8_greatest_12 : decode cX8_greatest 12 = .ok (.iload_n 3, 1) := by decide +kernel
theorem dX8_greatest_13 : decode cX8_greatest 13 = .ok (.ifCond .le 20, 3) := by decide +kernel
theorem dX8_greatest_16 : decode cX8_greatest 16 = .ok (.aload_n 0, 1) := by decide +kernel
theorem dX8_greatest_17 : decode cX8_greatest 17 = .ok (.getfield 27, 3) := by decide +kernel
theorem dX8_greatest_20 : decode cX8_greatest 20 = .ok (.iload_n 1, 1) := by decide +kernel
theorem dX8_greatest_21 : decode cX8_greatest 21 = .ok (.aaload, 1) := by decide +kernel
theorem dX8_greatest_22 : decode cX8_greatest 22 = .ok (.iload_n 3, 1) := by decide +kernel
theorem dX8_greatest_23 : decode cX8_greatest 23 = .ok (.baload, 1) := by decide +kernel
theorem dX8_greatest_24 : decode cX8_greatest 24 = .ok (.ifCond .ne 9, 3) := by decide +kernel
theorem dX8_greatest_27 : decode cX8_greatest 27 = .ok (.iinc 3 (-1), 3) := by decide +kernel
theorem dX8_greatest_30 : decode cX8_greatest 30 = .ok (.goto (-22), 3) := by decide +kernel
theorem dX8_greatest_33 : decode cX8_greatest 33 = .ok (.aload_n 0, 1) := by decide +kernel
theorem dX8_greatest_34 : decode cX8_greatest 34 = .ok (.iload_n 2, 1) := by decide +kernel
theorem dX8_greatest_35 : decode cX8_greatest 35 = .ok (.iload_n 3, 1) := by decide +kernel
theorem dX8_greatest_36 : decode cX8_greatest 36 = .ok (.ifCond .le 7, 3) := by decide +kernel
theorem dX8_greatest_39 : decode cX8_greatest 39 = .ok (.iconst 1, 1) := by decide +kernel
theorem dX8_greatest_40 : decode cX8_greatest 40 = .ok (.goto 4, 3) := by decide +kernel
theorem dX8_greatest_43 : decode cX8_greatest 43 = .ok (.iconst 0, 1) := by decide +kernel
theorem dX8_greatest_44 : decode cX8_greatest 44 = .ok (.invokevirtual 72, 3) := by decide +kernel
theorem dX8_greatest_47 : decode cX8_greatest 47 = .ok (.ifCond .eq 10, 3) := by decide +kernel
theorem dX8_greatest_50 : decode cX8_greatest 50 = .ok (.iload_n 3, 1) := by decide +kernel
theorem dX8_greatest_51 : decode cX8_greatest 51 = .ok (.invokestatic 11, 3) := by decide +kernel
theorem dX8_greatest_54 : decode cX8_greatest 54 = .ok (.goto 4, 3) := by decide +kernel
theorem dX8_greatest_57 : decode cX8_greatest 57 = .ok (.iconst 0, 1) := by decide +kernel
theorem dX8_greatest_58 : decode cX8_greatest 58 = .ok (.ireturn, 1) := by decide +kernel
set_option maxRecDepth 20000 in
theorem ggX8_becomes_X8_isSet : GoodIn wsX8_becomes wsX8_isSet := goodIn_r _ [6, 7, 8, 5, 9] (by decide +kernel) (by decide +kernel)
set_option maxRecDepth 20000 in
theorem gX8_becomes_X8_isSet : GoodIn wsX8_becomes (va_wsS RX8 65 yX8_isSet wsX8_isSet) := goodIn_app (goodIn_of _ (by decide +kernel)) ggX8_becomes_X8_isSet
set_option maxRecDepth 20000 in
theorem ggX8_becomes_X8_passes : GoodIn wsX8_becomes wsX8_passes := goodIn_r _ [13, 14, 27, 28, 29, 30, 31, 32, 33, 34, 35, 36, 37, 38, 39, 40, 41, 42, 43, 44, 45] (by decide +kernel) (by decide +kernel)
set_option maxRecDepth 20000 in
theorem gX8_becomes_X8_passes : GoodIn wsX8_becomes (wsV RX8 72 RX8 yX8_passes wsX8_passes) := goodIn_app (goodIn_of _ (by decide +kernel)) ggX8_becomes_X8_passes
set_option maxRecDepth 20000 in
theorem ggX8_becomes_X8_copies : GoodIn wsX8_becomes wsX8_copies := goodIn_r _ [17] (by decide +kernel) (by decide +kernel)
set_option maxRecDepth 20000 in
theorem gX8_becomes_X8_copies : GoodIn wsX8_becomes (va_wsS RX8 95 yX8_copies wsX8_copies) := goodIn_app (goodIn_of _ (by decide +kernel)) ggX8_becomes_X8_copies
set_option maxRecDepth 20000 in
theorem ggX8_becomes_X8_joins : GoodIn wsX8_becomes wsX8_joins := goodIn_r _ [20] (by decide +kernel) (by decide +kernel)
set_option maxRecDepth 20000 in
theorem gX8_becomes_X8_joins : GoodIn wsX8_becomes (va_wsS RX8 87 yX8_joins wsX8_joins) := goodIn_app (goodIn_of _ (by decide +kernel)) ggX8_becomes_X8_joins
set_option maxRecDepth 20000 in
theorem ggX8_becomes_X8_areSame : GoodIn wsX8_becomes wsX8_areSame := goodIn_r _ [23, 24, 25, 5, 26] (by decide +kernel) (by decide +kernel)
set_option maxRecDepth 20000 in
theorem gX8_becomes_X8_areSame : GoodIn wsX8_becomes (va_wsS RX8 99 yX8_areSame wsX8_areSame) := goodIn_app (goodIn_of _ (by decide +kernel)) ggX8_becomes_X8_areSame
theorem dX8_becomes_0 : decode cX8_becomes 0 = .ok (.aload_n 0, 1) := by decide +kernel
theorem dX8_becomes_1 : decode cX8_becomes 1 = .ok (.iload_n 1, 1) := by decide +kernel
theorem dX8_becomes_2 : decode cX8_becomes 2 = .ok (.invokestatic 65, 3) := by decide +kernel
theorem dX8_becomes_5 : decode cX8_becomes 5 = .ok (.ifCond .eq 14, 3) := by decide +kernel
theorem dX8_becomes_8 : decode cX8_becomes 8 = .ok (.iload_n 2, 1) := by decide +kernel
theorem dX8_becomes_9 : decode cX8_becomes 9 = .ok (.invokestatic 65, 3) := by decide +kernel
theorem dX8_becomes_12 : decode cX8_becomes 12 = .ok (.ifCond .eq 7, 3) := by decide +kernel
theorem dX8_becomes_15 : decode cX8_becomes 15 = .ok (.iconst 1, 1) := by decide +kernel
theorem dX8_becomes_16 : decode cX8_becomes 16 = .ok (.goto 4, 3) := by decide +kernel
theorem dX8_becomes_19 : decode cX8_becomes 19 = .ok (.iconst 0, 1) := by decide +kernel
theorem dX8_becomes_20 : decode cX8_becomes 20 = .ok (.iconst 1, 1) := by decide +kernel
theorem dX8_becomes_21 : decode cX8_becomes 21 = .ok (.invokevirtual 72, 3) := by decide +kernel
theorem dX8_becomes_24 : decode cX8_becomes 24 = .ok (.ifCond .ne 5, 3) := by decide +kernel
theorem dX8_becomes_27 : decode cX8_becomes 27 = .ok (.iconst 0, 1) := by decide +kernel
theorem dX8_becomes_28 : decode cX8_becomes 28 = .ok (.ireturn, 1) := by decide +kernel
theorem dX8_becomes_29 : decode cX8_becomes 29 = .ok (.aload_n 0, 1) := by decide +kernel
theorem dX8_becomes_30 : decode cX8_becomes 30 = .ok (.getfield 27, 3) := by decide +kernel
theorem dX8_becomes_33 : decode cX8_becomes 33 = .ok (.iload_n 1, 1) := by decide +kernel
theorem dX8_becomes_34 : decode cX8_becomes 34 = .ok (.aaload, 1) := by decide +kernel
theorem dX8_becomes_35 : decode cX8_becomes 35 = .ok (.aload_n 0, 1) := by decide +kernel
theorem dX8_becomes_36 : decode cX8_becomes 36 = .ok (.getfield 30, 3) := by decide +kernel
theorem dX8_becomes_39 : decode cX8_becomes 39 = .ok (.invokestatic 95, 3) := by decide +kernel
theorem dX8_becomes_42 : decode cX8_becomes 42 = .ok (.aload_n 0, 1) := by decide +kernel
theorem dX8_becomes_43 : decode cX8_becomes 43 = .ok (.getfield 30, 3) := by decide +kernel
theorem dX8_becomes_46 : decode cX8_becomes 46 = .ok (.aload_n 0, 1) := by decide +kernel
theorem dX8_becomes_47 : decode cX8_becomes 47 = .ok (.getfield 27, 3) := by decide +kernel
theorem dX8_becomes_50 : decode cX8_becomes 50 = .ok (.iload_n 2, 1) := by decide +kernel
theorem dX8_becomes_51 : decode cX8_becomes 51 = .ok (.aaload, 1) := by decide +kernel
theorem dX8_becomes_52 : decode cX8_becomes 52 = .ok (.iload_n 3, 1) := by decide +kernel
theorem dX8_becomes_53 : decode cX8_becomes 53 = .ok (.aload_n 0, 1) := by decide +kernel
theorem dX8_becomes_54 : decode cX8_becomes 54 = .ok (.getfield 27, 3) := by decide +kernel
theorem dX8_becomes_57 : decode cX8_becomes 57 = .ok (.iload_n 1, 1) := by decide +kernel
theorem dX8_becomes_58 : decode cX8_becomes 58 = .ok (.aaload, 1) := by decide +kernel
theorem dX8_becomes_59 : decode cX8_becomes 59 = .ok (.invokestatic 87, 3) := by decide +kernel
theorem dX8_becomes_62 : decode cX8_becomes 62 = .ok (.aload_n 0, 1) := by decide +kernel
theorem dX8_becomes_63 : decode cX8_becomes 63 = .ok (.getfield 30, 3) := by decide +kernel
theorem dX8_becomes_66 : decode cX8_becomes 66 = .ok (.aload_n 0, 1) := by decide +kernel
theorem dX8_becomes_67 : decode cX8_becomes 67 = .ok (.getfield 27, 3) := by decide +kernel
theorem dX8_becomes_70 : decode cX8_becomes 70 = .ok (.iload_n 1, 1) := by decide +kernel
theorem dX8_becomes_71 : decode cX8_becomes 71 = .ok (.aaload, 1) := by decide +kernel
theorem dX8_becomes_72 : decode cX8_becomes 72 = .ok (.invokestatic 99, 3) := by decide +kernel
theorem dX8_becomes_75 : decode cX8_becomes 75 = .ok (.ifCond .ne 7, 3) := by decide +kernel
theorem dX8_becomes_78 : decode cX8_becomes 78 = .ok (.iconst 1, 1) := by decide +kernel
theorem dX8_becomes_79 : decode cX8_becomes 79 = .ok (.goto 4, 3) := by decide +kernel
theorem dX8_becomes_82 : decode cX8_becomes 82 = .ok (.iconst 0, 1) := by decide +kernel
theorem dX8_becomes_83 : decode cX8_becomes 83 = .ok (.ireturn, 1) := by decide +kernel
set_option maxRecDepth 20000 in
theorem ggX8_unite_X8_becomes : GoodIn wsX8_unite wsX8_becomes := goodIn_r _ [5, 6, 7, 8, 9, 4, 10, 11, 12, 13, 14, 15, 16, 17, 18, 19, 20, 21, 22, 23, 24, 25, 26, 27, 28, 29, 30, 31, 32, 33, 34, 35, 36, 37, 38, 39, 40, 41, 42, 43, 44, 45, 46, 47, 48, 49] (by decide +kernel) (by decide +kernel)
set_option maxRecDepth 20000 in
theorem gX8_unite_X8_becomes : GoodIn wsX8_unite (wsV RX8 103 RX8 yX8_becomes wsX8_becomes) := goodIn_app (goodIn_of _ (by decide +kernel)) ggX8_unite_X8_becomes
theorem dX8_unite_0 : decode cX8_unite 0 = .ok (.aload_n 0, 1) := by decide +kernel
theorem dX8_unite_1 : decode cX8_unite 1 = .ok (.iload_n 1, 1) := by decide +kernel
theorem dX8_unite_2 : decode cX8_unite 2 = .ok (.iload_n 2, 1) := by decide +kernel
theorem dX8_unite_3 : decode cX8_unite 3 = .ok (.iconst 0, 1) := by decide +kernel
theorem dX8_unite_4 : decode cX8_unite 4 = .ok (.invokevirtual 103, 3) := by decide +kernel
theorem dX8_unite_7 : decode cX8_unite 7 = .ok (.ireturn, 1) := by decide +kernel
set_option maxRecDepth 20000 in
theorem ggX8_meet_X8_becomes : GoodIn wsX8_meet wsX8_becomes := goodIn_r _ [5, 6, 7, 8, 9, 4, 10, 11, 12, 13, 14, 15, 16, 17, 18, 19, 20, 21, 22, 23, 24, 25, 26, 27, 28, 29, 30, 31, 32, 33, 34, 35, 36, 37, 38, 39, 40, 41, 42, 43, 44, 45, 46, 47, 48, 49] (by decide +kernel) (by decide +kernel)
set_option maxRecDepth 20000 in
theorem gX8_meet_X8_becomes : GoodIn wsX8_meet (wsV RX8 103 RX8 yX8_becomes wsX8_becomes) := goodIn_app (goodIn_of _ (by decide +kernel)) ggX8_meet_X8_becomes
theorem dX8_meet_0 : decode cX8_meet 0 = .ok (.aload_n 0, 1) := by decide +kernel
theorem dX8_meet_1 : decode cX8_meet 1 = .ok (.iload_n 1, 1) := by decide +kernel
theorem dX8_meet_2 : decode cX8_meet 2 = .ok (.iload_n 2, 1) := by decide +kernel
theorem dX8_meet_3 : decode cX8_meet 3 = .ok (.iconst 1, 1) := by decide +kernel
theorem dX8_meet_4 : decode cX8_meet 4 = .ok (.invokevirtual 103, 3) := by decide +kernel
theorem dX8_meet_7 : decode cX8_meet 7 = .ok (.ireturn, 1) := by decide +kernel
set_option maxRecDepth 20000 in
theorem ggX8_without_X8_becomes : GoodIn wsX8_without wsX8_becomes := goodIn_r _ [5, 6, 7, 8, 9, 4, 10, 11, 12, 13, 14, 15, 16, 17, 18, 19, 20, 21, 22, 23, 24, 25, 26, 27, 28, 29, 30, 31, 32, 33, 34, 35, 36, 37, 38, 39, 40, 41, 42, 43, 44, 45, 46, 47, 48, 49] (by decide +kernel) (by decide +kernel)
set_option maxRecDepth 20000 in
theorem gX8_without_X8_becomes : GoodIn wsX8_without (wsV RX8 103 RX8 yX8_becomes wsX8_becomes) := goodIn_app (goodIn_of _ (by decide +kernel)) ggX8_without_X8_becomes
theorem dX8_without_0 : decode cX8_without 0 = .ok (.aload_n 0, 1) := by decide +kernel
theorem dX8_without_1 : decode cX8_without 1 = .ok (.iload_n 1, 1) := by decide +kernel
theorem dX8_without_2 : decode cX8_without 2 = .ok (.iload_n 2, 1) := by decide +kernel
theorem dX8_without_3 : decode cX8_without 3 = .ok (.iconst 2, 1) := by decide +kernel
theorem dX8_without_4 : decode cX8_without 4 = .ok (.invokevirtual 103, 3) := by decide +kernel
theorem dX8_without_7 : decode cX8_without 7 = .ok (.ireturn, 1) := by decide +kernel
set_option maxRecDepth 20000 in
theorem ggX8_copy_X8_isSet : GoodIn wsX8_copy wsX8_isSet := goodIn_r _ [5, 6, 7, 4, 8] (by decide +kernel) (by decide +kernel)
set_option maxRecDepth 20000 in
theorem gX8_copy_X8_isSet : GoodIn wsX8_copy (va_wsS RX8 65 yX8_isSet wsX8_isSet) := goodIn_app (goodIn_of _ (by decide +kernel)) ggX8_copy_X8_isSet
set_option maxRecDepth 20000 in
theorem ggX8_copy_X8_passes : GoodIn wsX8_copy wsX8_passes := goodIn_r _ [12, 13, 20, 21, 22, 23, 24, 25, 26, 27, 28, 29, 30, 31, 32, 33, 34, 35, 36, 37, 38] (by decide +kernel) (by decide +kernel)
set_option maxRecDepth 20000 in
theorem gX8_copy_X8_passes : GoodIn wsX8_copy (wsV RX8 72 RX8 yX8_passes wsX8_passes) := goodIn_app (goodIn_of _ (by decide +kernel)) ggX8_copy_X8_passes
set_option maxRecDepth 20000 in
theorem ggX8_copy_X8_copies : GoodIn wsX8_copy wsX8_copies := goodIn_r _ [16] (by decide +kernel) (by decide +kernel)
set_option maxRecDepth 20000 in
theorem gX8_copy_X8_copies : GoodIn wsX8_copy (va_wsS RX8 95 yX8_copies wsX8_copies) := goodIn_app (goodIn_of _ (by decide +kernel)) ggX8_copy_X8_copies
set_option maxRecDepth 20000 in
theorem ggX8_copy_X8_sizeOf : GoodIn wsX8_copy wsX8_sizeOf := goodIn_r _ [19] (by decide +kernel) (by decide +kernel)
set_option maxRecDepth 20000 in
theorem gX8_copy_X8_sizeOf : GoodIn wsX8_copy (va_wsS RX8 80 yX8_sizeOf wsX8_sizeOf) := goodIn_app (goodIn_of _ (by decide +kernel)) ggX8_copy_X8_sizeOf
theorem dX8_copy_0 : decode cX8_copy 0 = .ok (.aload_n 0, 1) := by decide +kernel
theorem dX8_copy_1 : decode cX8_copy 1 = .ok (.iload_n 1, 1) := by decide +kernel
theorem dX8_copy_2 : decode cX8_copy 2 = .ok (.invokestatic 65, 3) := by decide +kernel
theorem dX8_copy_5 : decode cX8_copy 5 = .ok (.ifCond .eq 14, 3) := by decide +kernel
theorem dX8_copy_8 : decode cX8_copy 8 = .ok (.iload_n 2, 1) := by decide +kernel
theorem dX8_copy_9 : decode cX8_copy 9 = .ok (.invokestatic 65, 3) := by decide +kernel
theorem dX8_copy_12 : decode cX8_copy 12 = .ok (.ifCond .eq 7, 3) := by decide +kernel
theorem dX8_copy_15 : decode cX8_copy 15 = .ok (.iconst 1, 1) := by decide +kernel
theorem dX8_copy_16 : decode cX8_copy 16 = .ok (.goto 4, 3) := by decide +kernel
theorem dX8_copy_19 : decode cX8_copy 19 = .ok (.iconst 0, 1) := by decide +kernel
theorem dX8_copy_20 : decode cX8_copy 20 = .ok (.iconst 1, 1) := by decide +kernel
theorem dX8_copy_21 : decode cX8_copy 21 = .ok (.invokevirtual 72, 3) := by decide +kernel
theorem dX8_copy_24 : decode cX8_copy 24 = .ok (.ifCond .ne 5, 3) := by decide +kernel
theorem dX8_copy_27 : decode cX8_copy 27 = .ok (.iconst 0, 1) := by decide +kernel
theorem dX8_copy_28 : decode cX8_copy 28 = .ok (.ireturn, 1) := by decide +kernel
theorem dX8_copy_29 : decode cX8_copy 29 = .ok (.aload_n 0, 1) := by decide +kernel
theorem dX8_copy_30 : decode cX8_copy 30 = .ok (.getfield 27, 3) := by decide +kernel
theorem dX8_copy_33 : decode cX8_copy 33 = .ok (.iload_n 2, 1) := by decide +kernel
theorem dX8_copy_34 : decode cX8_copy 34 = .ok (.aaload, 1) := by decide +kernel
theorem dX8_copy_35 : decode cX8_copy 35 = .ok (.aload_n 0, 1) := by decide +kernel
theorem dX8_copy_36 : decode cX8_copy 36 = .ok (.getfield 27, 3) := by decide +kernel
theorem dX8_copy_39 : decode cX8_copy 39 = .ok (.iload_n 1, 1) := by decide +kernel
theorem dX8_copy_40 : decode cX8_copy 40 = .ok (.aaload, 1) := by decide +kernel
theorem dX8_copy_41 : decode cX8_copy 41 = .ok (.invokestatic 95, 3) := by decide +kernel
theorem dX8_copy_44 : decode cX8_copy 44 = .ok (.aload_n 0, 1) := by decide +kernel
theorem dX8_copy_45 : decode cX8_copy 45 = .ok (.getfield 27, 3) := by decide +kernel
theorem dX8_copy_48 : decode cX8_copy 48 = .ok (.iload_n 1, 1) := by decide +kernel
theorem dX8_copy_49 : decode cX8_copy 49 = .ok (.aaload, 1) := by decide +kernel
theorem dX8_copy_50 : decode cX8_copy 50 = .ok (.invokestatic 80, 3) := by decide +kernel
theorem dX8_copy_53 : decode cX8_copy 53 = .ok (.ireturn, 1) := by decide +kernel
set_option maxRecDepth 20000 in
theorem ggX8_sieve_X8_isSet : GoodIn wsX8_sieve wsX8_isSet := goodIn_r _ [4, 5, 6, 3, 7] (by decide +kernel) (by decide +kernel)
set_option maxRecDepth 20000 in
theorem gX8_sieve_X8_isSet : GoodIn wsX8_sieve (va_wsS RX8 65 yX8_isSet wsX8_isSet) := goodIn_app (goodIn_of _ (by decide +kernel)) ggX8_sieve_X8_isSet
set_option maxRecDepth 20000 in
theorem ggX8_sieve_X8_in : GoodIn wsX8_sieve wsX8_in := goodIn_r _ [7] (by decide +kernel) (by decide +kernel)
set_option maxRecDepth 20000 in
theorem gX8_sieve_X8_in : GoodIn wsX8_sieve (va_wsS RX8 7 yX8_in wsX8_in) := goodIn_app (goodIn_of _ (by decide +kernel)) ggX8_sieve_X8_in
set_option maxRecDepth 20000 in
theorem ggX8_sieve_X8_passes : GoodIn wsX8_sieve wsX8_passes := goodIn_r _ [11, 12, 21, 22, 23, 24, 25, 26, 27, 28, 29, 30, 31, 32, 33, 34, 35, 36, 37, 38, 39] (by decide +kernel) (by decide +kernel)
set_option maxRecDepth 20000 in
theorem gX8_sieve_X8_passes : GoodIn wsX8_sieve (wsV RX8 72 RX8 yX8_passes wsX8_passes) := goodIn_app (goodIn_of _ (by decide +kernel)) ggX8_sieve_X8_passes
set_option maxRecDepth 20000 in
theorem ggX8_sieve_X8_puts : GoodIn wsX8_sieve wsX8_puts := goodIn_r _ [16, 17, 18, 19, 3, 20, 21, 22, 23, 24, 25, 26, 27, 28, 29, 30, 31, 32, 33, 34, 35, 36, 37, 38, 39] (by decide +kernel) (by decide +kernel)
set_option maxRecDepth 20000 in
theorem gX8_sieve_X8_puts : GoodIn wsX8_sieve (wsV RX8 76 RX8 yX8_puts wsX8_puts) := goodIn_app (goodIn_of _ (by decide +kernel)) ggX8_sieve_X8_puts
theorem dX8_sieve_0 : decode cX8_sieve 0 = .ok (.aload_n 0, 1) := by decide +kernel
theorem dX8_sieve_1 : decode cX8_sieve 1 = .ok (.iload_n 1, 1) := by decide +kernel
theorem dX8_sieve_2 : decode cX8_sieve 2 = .ok (.invokestatic 65, 3) := by decide +kernel
theorem dX8_sieve_5 : decode cX8_sieve 5 = .ok (.iload_n 2, 1) := by decide +kernel
theorem dX8_sieve_6 : decode cX8_sieve 6 = .ok (.iconst 1, 1) := by decide +kernel
theorem dX8_sieve_7 : decode cX8_sieve 7 = .ok (.bipush 100, 2) := by decide +kernel
theorem dX8_sieve_9 : decode cX8_sieve 9 = .ok (.invokestatic 7, 3) := by decide +kernel
theorem dX8_sieve_12 : decode cX8_sieve 12 = .ok (.ifCond .eq 17, 3) := by decide +kernel
theorem dX8_sieve_15 : decode cX8_sieve 15 = .ok (.iload_n 3, 1) := by decide +kernel
theorem dX8_sieve_16 : decode cX8_sieve 16 = .ok (.iconst 0, 1) := by decide +kernel
theorem dX8_sieve_17 : decode cX8_sieve 17 = .ok (.bipush 99, 2) := by decide +kernel
theorem dX8_sieve_19 : decode cX8_sieve 19 = .ok (.invokestatic 7, 3) := by decide +kernel
theorem dX8_sieve_22 : decode cX8_sieve 22 = .ok (.ifCond .eq 7, 3) := by decide +kernel
theorem dX8_sieve_25 : decode cX8_sieve 25 = .ok (.iconst 1, 1) := by decide +kernel
theorem dX8_sieve_26 : decode cX8_sieve 26 = .ok (.goto 4, 3) := by decide +kernel
theorem dX8_sieve_29 : decode cX8_sieve 29 = .ok (.iconst 0, 1) := by decide +kernel
theorem dX8_sieve_30 : decode cX8_sieve 30 = .ok (.invokevirtual 72, 3) := by decide +kernel
theorem dX8_sieve_33 : decode cX8_sieve 33 = .ok (.ifCond .ne 5, 3) := by decide +kernel
theorem dX8_sieve_36 : decode cX8_sieve 36 = .ok (.iconst 0, 1) := by decide +kernel
theorem dX8_sieve_37 : decode cX8_sieve 37 = .ok (.ireturn, 1) := by decide +kernel
theorem dX8_sieve_38 : decode cX8_sieve 38 = .ok (.iconst 0, 1) := by decide +kernel
theorem dX8_sieve_39 : decode cX8_sieve 39 = .ok (.istore 4, 2) := by decide +kernel
theorem dX8_sieve_41 : decode cX8_sieve 41 = .ok (.bipush (-50), 2) := by decide +kernel
theorem dX8_sieve_43 : decode cX8_sieve 43 = .ok (.istore 5, 2) := by decide +kernel
theorem dX8_sieve_45 : decode cX8_sieve 45 = .ok (.iload 5, 2) := by decide +kernel
theorem dX8_sieve_47 : decode cX8_sieve 47 = .ok (.bipush 50, 2) := by decide +kernel
theorem dX8_sieve_49 : decode cX8_sieve 49 = .ok (.if_icmp .gt 46, 3) := by decide +kernel
theorem dX8_sieve_52 : decode cX8_sieve 52 = .ok (.iload 5, 2) := by decide +kernel
theorem dX8_sieve_54 : decode cX8_sieve 54 = .ok (.iload_n 2, 1) := by decide +kernel
theorem dX8_sieve_55 : decode cX8_sieve 55 = .ok (.irem, 1) := by decide +kernel
theorem dX8_sieve_56 : decode cX8_sieve 56 = .ok (.iload_n 2, 1) := by decide +kernel
theorem dX8_sieve_57 : decode cX8_sieve 57 = .ok (.iadd, 1) := by decide +kernel
theorem dX8_sieve_58 : decode cX8_sieve 58 = .ok (.iload_n 2, 1) := by decide +kernel
theorem dX8_sieve_59 : decode cX8_sieve 59 = .ok (.irem, 1) := by decide +kernel
theorem dX8_sieve_60 : decode cX8_sieve 60 = .ok (.istore 6, 2) := by decide +kernel
theorem dX8_sieve_62 : decode cX8_sieve 62 = .ok (.iload 4, 2) := by decide +kernel
theorem dX8_sieve_64 : decode cX8_sieve 64 = .ok (.iload 6, 2) := by decide +kernel
theorem dX8_sieve_66 : decode cX8_sieve 66 = .ok (.iload_n 3, 1) := by decide +kernel
theorem dX8_sieve_67 : decode cX8_sieve 67 = .ok (.if_icmp .ne 18, 3) := by decide +kernel
theorem dX8_sieve_70 : decode cX8_sieve 70 = .ok (.aload_n 0, 1) := by decide +kernel
theorem dX8_sieve_71 : decode cX8_sieve 71 = .ok (.iload_n 1, 1) := by decide +kernel
theorem dX8_sieve_72 : decode cX8_sieve 72 = .ok (.iload 5, 2) := by decide +kernel
theorem dX8_sieve_74 : decode cX8_sieve 74 = .ok (.iconst 0, 1) := by decide +kernel
theorem dX8_sieve_75 : decode cX8_sieve 75 = .ok (.invokevirtual 76, 3) := by decide +kernel
theorem dX8_sieve_78 : decode cX8_sieve 78 = .ok (.ifCond .eq 7, 3) := by decide +kernel
theorem dX8_sieve_81 : decode cX8_sieve 81 = .ok (.iconst 1, 1) := by decide +kernel
theorem dX8_sieve_82 : decode cX8_sieve 82 = .ok (.goto 4, 3) := by decide +kernel
theorem dX8_sieve_85 : decode cX8_sieve 85 = .ok (.iconst 0, 1) := by decide +kernel
theorem dX8_sieve_86 : decode cX8_sieve 86 = .ok (.iadd, 1) := by decide +kernel
theorem dX8_sieve_87 : decode cX8_sieve 87 = .ok (.istore 4, 2) := by decide +kernel
theorem dX8_sieve_89 : decode cX8_sieve 89 = .ok (.iinc 5 1, 3) := by decide +kernel
theorem dX8_sieve_92 : decode cX8_sieve 92 = .ok (.goto (-47), 3) := by decide +kernel
theorem dX8_sieve_95 : decode cX8_sieve 95 = .ok (.iload 4, 2) := by decide +kernel
theorem dX8_sieve_97 : decode cX8_sieve 97 = .ok (.ireturn, 1) := by decide +kernel
set_option maxRecDepth 20000 in
theorem ggX8_isWithin_X8_isSet : GoodIn wsX8_isWithin wsX8_isSet := goodIn_r _ [5, 6, 7, 4, 8] (by decide +kernel) (by decide +kernel)
set_option maxRecDepth 20000 in
theorem gX8_isWithin_X8_isSet : GoodIn wsX8_isWithin (va_wsS RX8 65 yX8_isSet wsX8_isSet) := goodIn_app (goodIn_of _ (by decide +kernel)) ggX8_isWithin_X8_isSet
set_option maxRecDepth 20000 in
theorem ggX8_isWithin_X8_passes : GoodIn wsX8_isWithin wsX8_passes := goodIn_r _ [12, 13, 17, 18, 19, 20, 21, 22, 23, 24, 25, 26, 27, 28, 29, 30, 31, 32, 33, 34, 35] (by decide +kernel) (by decide +kernel)
set_option maxRecDepth 20000 in
theorem gX8_isWithin_X8_passes : GoodIn wsX8_isWithin (wsV RX8 72 RX8 yX8_passes wsX8_passes) := goodIn_app (goodIn_of _ (by decide +kernel)) ggX8_isWithin_X8_passes
set_option maxRecDepth 20000 in
theorem ggX8_isWithin_X8_lies : GoodIn wsX8_isWithin wsX8_lies := goodIn_r _ [16] (by decide +kernel) (by decide +kernel)
set_option maxRecDepth 20000 in
theorem gX8_isWithin_X8_lies : GoodIn wsX8_isWithin (va_wsS RX8 106 yX8_lies wsX8_lies) := goodIn_app (goodIn_of _ (by decide +kernel)) ggX8_isWithin_X8_lies
theorem dX8_isWithin_0 : decode cX8_isWithin 0 = .ok (.aload_n 0, 1) := by decide +kernel
theorem dX8_isWithin_1 : decode cX8_isWithin 1 = .ok (.iload_n 1, 1) := by decide +kernel
theorem dX8_isWithin_2 : decode cX8_isWithin 2 = .ok (.invokestatic 65, 3) := by decide +kernel
theorem dX8_isWithin_5 : decode cX8_isWithin 5 = .ok (.ifCond .eq 14, 3) := by decide +kernel
theorem dX8_isWithin_8 : decode cX8_isWithin 8 = .ok (.iload_n 2, 1) := by decide +kernel
theorem dX8_isWithin_9 : decode cX8_isWithin 9 = .ok (.invokestatic 65, 3) := by decide +kernel
theorem dX8_isWithin_12 : decode cX8_isWithin 12 = .ok (.ifCond .eq 7, 3) := by decide +kernel
theorem dX8_isWithin_15 : decode cX8_isWithin 15 = .ok (.iconst 1, 1) := by decide +kernel
theorem dX8_isWithin_16 : decode cX8_isWithin 16 = .ok (.goto 4, 3) := by decide +kernel
theorem dX8_isWithin_19 : decode cX8_isWithin 19 = .ok (.iconst 0, 1) := by decide +kernel
theorem dX8_isWithin_20 : decode cX8_isWithin 20 = .ok (.iconst 1, 1) := by decide +kernel
theorem dX8_isWithin_21 : decode cX8_isWithin 21 = .ok (.invokevirtual 72, 3) := by decide +kernel
theorem dX8_isWithin_24 : decode cX8_isWithin 24 = .ok (.ifCond .eq 25, 3) := by decide +kernel
theorem dX8_isWithin_27 : decode cX8_isWithin 27 = .ok (.aload_n 0, 1) := by decide +kernel
theorem dX8_isWithin_28 : decode cX8_isWithin 28 = .ok (.getfield 27, 3) := by decide +kernel
theorem dX8_isWithin_31 : decode cX8_isWithin 31 = .ok (.iload_n 1, 1) := by decide +kernel
theorem dX8_isWithin_32 : decode cX8_isWithin 32 = .ok (.aaload, 1) := by decide +kernel
theorem dX8_isWithin_33 : decode cX8_isWithin 33 = .ok (.aload_n 0, 1) := by decide +kernel
theorem dX8_isWithin_34 : decode cX8_isWithin 34 = .ok (.getfield 27, 3) := by decide +kernel
theorem dX8_isWithin_37 : decode cX8_isWithin 37 = .ok (.iload_n 2, 1) := by decide +kernel
theorem dX8_isWithin_38 : decode cX8_isWithin 38 = .ok (.aaload, 1) := by decide +kernel
theorem dX8_isWithin_39 : decode cX8_isWithin 39 = .ok (.invokestatic 106, 3) := by decide +kernel
theorem dX8_isWithin_42 : decode cX8_isWithin 42 = .ok (.ifCond .eq 7, 3) := by decide +kernel
theorem dX8_isWithin_45 : decode cX8_isWithin 45 = .ok (.iconst 1, 1) := by decide +kernel
theorem dX8_isWithin_46 : decode cX8_isWithin 46 = .ok (.goto 4, 3) := by decide +kernel
theorem dX8_isWithin_49 : decode cX8_isWithin 49 = .ok (.iconst 0, 1) := by decide +kernel
theorem dX8_isWithin_50 : decode cX8_isWithin 50 = .ok (.ireturn, 1) := by decide +kernel
set_option maxRecDepth 20000 in
theorem ggX8_isApart_X8_isSet : GoodIn wsX8_isApart wsX8_isSet := goodIn_r _ [6, 7, 8, 5, 9] (by decide +kernel) (by decide +kernel)
set_option maxRecDepth 20000 in
theorem gX8_isApart_X8_isSet : GoodIn wsX8_isApart (va_wsS RX8 65 yX8_isSet wsX8_isSet) := goodIn_app (goodIn_of _ (by decide +kernel)) ggX8_isApart_X8_isSet
set_option maxRecDepth 20000 in
theorem ggX8_isApart_X8_passes : GoodIn wsX8_isApart wsX8_passes := goodIn_r _ [13, 14, 21, 22, 23, 24, 25, 26, 27, 28, 29, 30, 31, 32, 33, 34, 35, 36, 37, 38, 39] (by decide +kernel) (by decide +kernel)
set_option maxRecDepth 20000 in
theorem gX8_isApart_X8_passes : GoodIn wsX8_isApart (wsV RX8 72 RX8 yX8_passes wsX8_passes) := goodIn_app (goodIn_of _ (by decide +kernel)) ggX8_isApart_X8_passes
set_option maxRecDepth 20000 in
theorem ggX8_isApart_X8_joins : GoodIn wsX8_isApart wsX8_joins := goodIn_r _ [17] (by decide +kernel) (by decide +kernel)
set_option maxRecDepth 20000 in
theorem gX8_isApart_X8_joins : GoodIn wsX8_isApart (va_wsS RX8 87 yX8_joins wsX8_joins) := goodIn_app (goodIn_of _ (by decide +kernel)) ggX8_isApart_X8_joins
set_option maxRecDepth 20000 in
theorem ggX8_isApart_X8_sizeOf : GoodIn wsX8_isApart wsX8_sizeOf := goodIn_r _ [20] (by decide +kernel) (by decide +kernel)
set_option maxRecDepth 20000 in
theorem gX8_isApart_X8_sizeOf : GoodIn wsX8_isApart (va_wsS RX8 80 yX8_sizeOf wsX8_sizeOf) := goodIn_app (goodIn_of _ (by decide +kernel)) ggX8_isApart_X8_sizeOf
theorem dX8_isApart_0 : decode cX8_isApart 0 = .ok (.aload_n 0, 1) := by decide +kernel
theorem dX8_isApart_1 : decode cX8_isApart 1 = .ok (.iload_n 1, 1) := by decide +kernel
theorem dX8_isApart_2 : decode cX8_isApart 2 = .ok (.invokestatic 65, 3) := by decide +kernel
theorem dX8_isApart_5 : decode cX8_isApart 5 = .ok (.ifCond .eq 14, 3) := by decide +kernel
theorem dX8_isApart_8 : decode cX8_isApart 8 = .ok (.iload_n 2, 1) := by decide +kernel
theorem dX8_isApart_9 : decode cX8_isApart 9 = .ok (.invokestatic 65, 3) := by decide +kernel
theorem dX8_isApart_12 : decode cX8_isApart 12 = .ok (.ifCond .eq 7, 3) := by decide +kernel
theorem dX8_isApart_15 : decode cX8_isApart 15 = .ok (.iconst 1, 1) := by decide +kernel
theorem dX8_isApart_16 : decode cX8_isApart 16 = .ok (.goto 4, 3) := by decide +kernel
theorem dX8_isApart_19 : decode cX8_isApart 19 = .ok (.iconst 0, 1) := by decide +kernel
theorem dX8_isApart_20 : decode cX8_isApart 20 = .ok (.iconst 1, 1) := by decide +kernel
theorem dX8_isApart_21 : decode cX8_isApart 21 = .ok (.invokevirtual 72, 3) := by decide +kernel
theorem dX8_isApart_24 : decode cX8_isApart 24 = .ok (.ifCond .ne 5, 3) := by decide +kernel
theorem dX8_isApart_27 : decode cX8_isApart 27 = .ok (.iconst 0, 1) := by decide +kernel
theorem dX8_isApart_28 : decode cX8_isApart 28 = .ok (.ireturn, 1) := by decide +kernel
theorem dX8_isApart_29 : decode cX8_isApart 29 = .ok (.aload_n 0, 1) := by decide +kernel
theorem dX8_isApart_30 : decode cX8_isApart 30 = .ok (.getfield 27, 3) := by decide +kernel
theorem dX8_isApart_33 : decode cX8_isApart 33 = .ok (.iload_n 1, 1) := by decide +kernel
theorem dX8_isApart_34 : decode cX8_isApart 34 = .ok (.aaload, 1) := by decide +kernel
theorem dX8_isApart_35 : decode cX8_isApart 35 = .ok (.aload_n 0, 1) := by decide +kernel
theorem dX8_isApart_36 : decode cX8_isApart 36 = .ok (.getfield 27, 3) := by decide +kernel
theorem dX8_isApart_39 : decode cX8_isApart 39 = .ok (.iload_n 2, 1) := by decide +kernel
theorem dX8_isApart_40 : decode cX8_isApart 40 = .ok (.aaload, 1) := by decide +kernel
theorem dX8_isApart_41 : decode cX8_isApart 41 = .ok (.iconst 1, 1) := by decide +kernel
theorem dX8_isApart_42 : decode cX8_isApart 42 = .ok (.aload_n 0, 1) := by decide +kernel
theorem dX8_isApart_43 : decode cX8_isApart 43 = .ok (.getfield 30, 3) := by decide +kernel
theorem dX8_isApart_46 : decode cX8_isApart 46 = .ok (.invokestatic 87, 3) := by decide +kernel
theorem dX8_isApart_49 : decode cX8_isApart 49 = .ok (.aload_n 0, 1) := by decide +kernel
theorem dX8_isApart_50 : decode cX8_isApart 50 = .ok (.getfield 30, 3) := by decide +kernel
theorem dX8_isApart_53 : decode cX8_isApart 53 = .ok (.invokestatic 80, 3) := by decide +kernel
theorem dX8_isApart_56 : decode cX8_isApart 56 = .ok (.ifCond .ne 7, 3) := by decide +kernel
theorem dX8_isApart_59 : decode cX8_isApart 59 = .ok (.iconst 1, 1) := by decide +kernel
theorem dX8_isApart_60 : decode cX8_isApart 60 = .ok (.goto 4, 3) := by decide +kernel
theorem dX8_isApart_63 : decode cX8_isApart 63 = .ok (.iconst 0, 1) := by decide +kernel
theorem dX8_isApart_64 : decode cX8_isApart 64 = .ok (.ireturn, 1) := by decide +kernel
set_option maxRecDepth 20000 in
theorem ggX8_isSame_X8_isSet : GoodIn wsX8_isSame wsX8_isSet := goodIn_r _ [5, 6, 7, 4, 8] (by decide +kernel) (by decide +kernel)
set_option maxRecDepth 20000 in
theorem gX8_isSame_X8_isSet : GoodIn wsX8_isSame (va_wsS RX8 65 yX8_isSet wsX8_isSet) := goodIn_app (goodIn_of _ (by decide +kernel)) ggX8_isSame_X8_isSet
set_option maxRecDepth 20000 in
theorem ggX8_isSame_X8_passes : GoodIn wsX8_isSame wsX8_passes := goodIn_r _ [12, 13, 20, 21, 22, 23, 24, 25, 26, 27, 28, 29, 30, 31, 32, 33, 34, 35, 36, 37, 38] (by decide +kernel) (by decide +kernel)
set_option maxRecDepth 20000 in
theorem gX8_isSame_X8_passes : GoodIn wsX8_isSame (wsV RX8 72 RX8 yX8_passes wsX8_passes) := goodIn_app (goodIn_of _ (by decide +kernel)) ggX8_isSame_X8_passes
set_option maxRecDepth 20000 in
theorem ggX8_isSame_X8_areSame : GoodIn wsX8_isSame wsX8_areSame := goodIn_r _ [16, 17, 18, 4, 19] (by decide +kernel) (by decide +kernel)
set_option maxRecDepth 20000 in
theorem gX8_isSame_X8_areSame : GoodIn wsX8_isSame (va_wsS RX8 99 yX8_areSame wsX8_areSame) := goodIn_app (goodIn_of _ (by decide +kernel)) ggX8_isSame_X8_areSame
theorem dX8_isSame_0 : decode cX8_isSame 0 = .ok (.aload_n 0, 1) := by decide +kernel
theorem dX8_isSame_1 : decode cX8_isSame 1 = .ok (.iload_n 1, 1) := by decide +kernel
theorem dX8_isSame_2 : decode cX8_isSame 2 = .ok (.invokestatic 65, 3) := by decide +kernel
theorem dX8_isSame_5 : decode cX8_isSame 5 = .ok (.ifCond .eq 14, 3) := by decide +kernel
theorem dX8_isSame_8 : decode cX8_isSame 8 = .ok (.iload_n 2, 1) := by decide +kernel
theorem dX8_isSame_9 : decode cX8_isSame 9 = .ok (.invokestatic 65, 3) := by decide +kernel
theorem dX8_isSame_12 : decode cX8_isSame 12 = .ok (.ifCond .eq 7, 3) := by decide +kernel
theorem dX8_isSame_15 : decode cX8_isSame 15 = .ok (.iconst 1, 1) := by decide +kernel
theorem dX8_isSame_16 : decode cX8_isSame 16 = .ok (.goto 4, 3) := by decide +kernel
theorem dX8_isSame_19 : decode cX8_isSame 19 = .ok (.iconst 0, 1) := by decide +kernel
theorem dX8_isSame_20 : decode cX8_isSame 20 = .ok (.iconst 1, 1) := by decide +kernel
theorem dX8_isSame_21 : decode cX8_isSame 21 = .ok (.invokevirtual 72, 3) := by decide +kernel
theorem dX8_isSame_24 : decode cX8_isSame 24 = .ok (.ifCond .eq 25, 3) := by decide +kernel
theorem dX8_isSame_27 : decode cX8_isSame 27 = .ok (.aload_n 0, 1) := by decide +kernel
theorem dX8_isSame_28 : decode cX8_isSame 28 = .ok (.getfield 27, 3) := by decide +kernel
theorem dX8_isSame_31 : decode cX8_isSame 31 = .ok (.iload_n 1, 1) := by decide +kernel
theorem dX8_isSame_32 : decode cX8_isSame 32 = .ok (.aaload, 1) := by decide +kernel
theorem dX8_isSame_33 : decode cX8_isSame 33 = .ok (.aload_n 0, 1) := by decide +kernel
theorem dX8_isSame_34 : decode cX8_isSame 34 = .ok (.getfield 27, 3) := by decide +kernel
theorem dX8_isSame_37 : decode cX8_isSame 37 = .ok (.iload_n 2, 1) := by decide +kernel
theorem dX8_isSame_38 : decode cX8_isSame 38 = .ok (.aaload, 1) := by decide +kernel
theorem dX8_isSame_39 : decode cX8_isSame 39 = .ok (.invokestatic 99, 3) := by decide +kernel
theorem dX8_isSame_42 : decode cX8_isSame 42 = .ok (.ifCond .eq 7, 3) := by decide +kernel
theorem dX8_isSame_45 : decode cX8_isSame 45 = .ok (.iconst 1, 1) := by decide +kernel
theorem dX8_isSame_46 : decode cX8_isSame 46 = .ok (.goto 4, 3) := by decide +kernel
theorem dX8_isSame_49 : decode cX8_isSame 49 = .ok (.iconst 0, 1) := by decide +kernel
theorem dX8_isSame_50 : decode cX8_isSame 50 = .ok (.ireturn, 1) := by decide +kernel
theorem dX8_votes_0 : decode cX8_votes 0 = .ok (.iconst 0, 1) := by decide +kernel
theorem dX8_votes_1 : decode cX8_votes 1 = .ok (.istore_n 2, 1) := by decide +kernel
theorem dX8_votes_2 : decode cX8_votes 2 = .ok (.iconst 0, 1) := by decide +kernel
theorem dX8_votes_3 : decode cX8_votes 3 = .ok (.istore_n 3, 1) := by decide +kernel
theorem dX8_votes_4 : decode cX8_votes 4 = .ok (.iload_n 3, 1) := by decide +kernel
theorem dX8_votes_5 : decode cX8_votes 5 = .ok (.bipush 8, 2) := by decide +kernel
theorem dX8_votes_7 : decode cX8_votes 7 = .ok (.if_icmp .ge 28, 3) := by decide +kernel
theorem dX8_votes_10 : decode cX8_votes 10 = .ok (.iload_n 2, 1) := by decide +kernel
theorem dX8_votes_11 : decode cX8_votes 11 = .ok (.aload_n 0, 1) := by decide +kernel
theorem dX8_votes_12 : decode cX8_votes 12 = .ok (.getfield 27, 3) := by decide +kernel
theorem dX8_votes_15 : decode cX8_votes 15 = .ok (.iload_n 3, 1) := by decide +kernel
theorem dX8_votes_16 : decode cX8_votes 16 = .ok (.aaload, 1) := by decide +kernel
theorem dX8_votes_17 : decode cX8_votes 17 = .ok (.iload_n 1, 1) := by decide +kernel
theorem dX8_votes_18 : decode cX8_votes 18 = .ok (.baload, 1) := by decide +kernel
theorem dX8_votes_19 : decode cX8_votes 19 = .ok (.ifCond .eq 7, 3) := by decide +kernel
theorem dX8_votes_22 : decode cX8_votes 22 = .ok (.iconst 1, 1) := by decide +kernel
theorem dX8_votes_23 : decode cX8_votes 23 = .ok (.goto 4, 3) := by decide +kernel
theorem dX8_votes_26 : decode cX8_votes 26 = .ok (.iconst 0, 1) := by decide +kernel
theorem dX8_votes_27 : decode cX8_votes 27 = .ok (.iadd, 1) := by decide +kernel
theorem dX8_votes_28 : decode cX8_votes 28 = .ok (.istore_n 2, 1) := by decide +kernel
theorem dX8_votes_29 : decode cX8_votes 29 = .ok (.iinc 3 1, 3) := by decide +kernel
theorem dX8_votes_32 : decode cX8_votes 32 = .ok (.goto (-28), 3) := by decide +kernel
theorem dX8_votes_35 : decode cX8_votes 35 = .ok (.iload_n 2, 1) := by decide +kernel
theorem dX8_votes_36 : decode cX8_votes 36 = .ok (.ireturn, 1) := by decide +kernel
set_option maxRecDepth 20000 in
theorem ggX8_vote_X8_isMember : GoodIn wsX8_vote wsX8_isMember := goodIn_r _ [4, 5, 6, 3, 7] (by decide +kernel) (by decide +kernel)
set_option maxRecDepth 20000 in
theorem gX8_vote_X8_isMember : GoodIn wsX8_vote (va_wsS RX8 69 yX8_isMember wsX8_isMember) := goodIn_app (goodIn_of _ (by decide +kernel)) ggX8_vote_X8_isMember
set_option maxRecDepth 20000 in
theorem ggX8_vote_X8_passes : GoodIn wsX8_vote wsX8_passes := goodIn_r _ [11, 12, 21, 22, 23, 24, 25, 26, 27, 28, 29, 30, 31, 32, 33, 34, 35, 36, 37, 38, 39] (by decide +kernel) (by decide +kernel)
set_option maxRecDepth 20000 in
theorem gX8_vote_X8_passes : GoodIn wsX8_vote (wsV RX8 72 RX8 yX8_passes wsX8_passes) := goodIn_app (goodIn_of _ (by decide +kernel)) ggX8_vote_X8_passes
set_option maxRecDepth 20000 in
theorem ggX8_vote_X8_placeOfMember : GoodIn wsX8_vote wsX8_placeOfMember := goodIn_r _ [15] (by decide +kernel) (by decide +kernel)
set_option maxRecDepth 20000 in
theorem gX8_vote_X8_placeOfMember : GoodIn wsX8_vote (va_wsS RX8 62 yX8_placeOfMember wsX8_placeOfMember) := goodIn_app (goodIn_of _ (by decide +kernel)) ggX8_vote_X8_placeOfMember
set_option maxRecDepth 20000 in
theorem ggX8_vote_X8_votes : GoodIn wsX8_vote wsX8_votes := goodIn_r _ [19, 20, 21, 22, 23, 24, 25, 26, 27, 28, 29, 30, 31, 32, 33, 34, 35, 36, 37, 38, 39] (by decide +kernel) (by decide +kernel)
set_option maxRecDepth 20000 in
theorem gX8_vote_X8_votes : GoodIn wsX8_vote (wsV RX8 109 RX8 yX8_votes wsX8_votes) := goodIn_app (goodIn_of _ (by decide +kernel)) ggX8_vote_X8_votes
theorem dX8_vote_0 : decode cX8_vote 0 = .ok (.aload_n 0, 1) := by decide +kernel
theorem dX8_vote_1 : decode cX8_vote 1 = .ok (.iload_n 1, 1) := by decide +kernel
theorem dX8_vote_2 : decode cX8_vote 2 = .ok (.invokestatic 69, 3) := by decide +kernel
theorem dX8_vote_5 : decode cX8_vote 5 = .ok (.iconst 1, 1) := by decide +kernel
theorem dX8_vote_6 : decode cX8_vote 6 = .ok (.invokevirtual 72, 3) := by decide +kernel
theorem dX8_vote_9 : decode cX8_vote 9 = .ok (.ifCond .eq 14, 3) := by decide +kernel
theorem dX8_vote_12 : decode cX8_vote 12 = .ok (.aload_n 0, 1) := by decide +kernel
theorem dX8_vote_13 : decode cX8_vote 13 = .ok (.iload_n 1, 1) := by decide +kernel
theorem dX8_vote_14 : decode cX8_vote 14 = .ok (.invokestatic 62, 3) := by decide +kernel
theorem dX8_vote_17 : decode cX8_vote 17 = .ok (.invokevirtual 109, 3) := by decide +kernel
theorem dX8_vote_20 : decode cX8_vote 20 = .ok (.goto 4, 3) := by decide +kernel
theorem dX8_vote_23 : decode cX8_vote 23 = .ok (.iconst 0, 1) := by decide +kernel
theorem dX8_vote_24 : decode cX8_vote 24 = .ok (.ireturn, 1) := by decide +kernel
set_option maxRecDepth 20000 in
theorem ggX8_elect_X8_isSet : GoodIn wsX8_elect wsX8_isSet := goodIn_r _ [5, 6, 7, 4, 8] (by decide +kernel) (by decide +kernel)
set_option maxRecDepth 20000 in
theorem gX8_elect_X8_isSet : GoodIn wsX8_elect (va_wsS RX8 65 yX8_isSet wsX8_isSet) := goodIn_app (goodIn_of _ (by decide +kernel)) ggX8_elect_X8_isSet
set_option maxRecDepth 20000 in
theorem ggX8_elect_X8_in : GoodIn wsX8_elect wsX8_in := goodIn_r _ [8] (by decide +kernel) (by decide +kernel)
set_option maxRecDepth 20000 in
theorem gX8_elect_X8_in : GoodIn wsX8_elect (va_wsS RX8 7 yX8_in wsX8_in) := goodIn_app (goodIn_of _ (by decide +kernel)) ggX8_elect_X8_in
set_option maxRecDepth 20000 in
theorem ggX8_elect_X8_passes : GoodIn wsX8_elect wsX8_passes := goodIn_r _ [12, 13, 21, 22, 23, 24, 25, 26, 27, 28, 29, 30, 31, 32, 33, 34, 35, 36, 37, 38, 39] (by decide +kernel) (by decide +kernel)
set_option maxRecDepth 20000 in
theorem gX8_elect_X8_passes : GoodIn wsX8_elect (wsV RX8 72 RX8 yX8_passes wsX8_passes) := goodIn_app (goodIn_of _ (by decide +kernel)) ggX8_elect_X8_passes
set_option maxRecDepth 20000 in
theorem ggX8_elect_X8_votes : GoodIn wsX8_elect wsX8_votes := goodIn_r _ [17, 1, 21, 22, 23, 24, 25, 26, 27, 28, 29, 30, 31, 32, 33, 34, 35, 36, 37, 38, 39] (by decide +kernel) (by decide +kernel)
set_option maxRecDepth 20000 in
theorem gX8_elect_X8_votes : GoodIn wsX8_elect (wsV RX8 109 RX8 yX8_votes wsX8_votes) := goodIn_app (goodIn_of _ (by decide +kernel)) ggX8_elect_X8_votes
set_option maxRecDepth 20000 in
theorem ggX8_elect_X8_sizeOf : GoodIn wsX8_elect wsX8_sizeOf := goodIn_r _ [20] (by decide +kernel) (by decide +kernel)
set_option maxRecDepth 20000 in
theorem gX8_elect_X8_sizeOf : GoodIn wsX8_elect (va_wsS RX8 80 yX8_sizeOf wsX8_sizeOf) := goodIn_app (goodIn_of _ (by decide +kernel)) ggX8_elect_X8_sizeOf
theorem dX8_elect_0 : decode cX8_elect 0 = .ok (.aload_n 0, 1) := by decide +kernel
theorem dX8_elect_1 : decode cX8_elect 1 = .ok (.iload_n 1, 1) := by decide +kernel
theorem dX8_elect_2 : decode cX8_elect 2 = .ok (.invokestatic 65, 3) := by decide +kernel
theorem dX8_elect_5 : decode cX8_elect 5 = .ok (.iload_n 2, 1) := by decide +kernel
theorem dX8_elect_6 : decode cX8_elect 6 = .ok (.iconst 1, 1) := by decide +kernel
theorem dX8_elect_7 : decode cX8_elect 7 = .ok (.bipush 8, 2) := by decide +kernel
theorem dX8_elect_9 : decode cX8_elect 9 = .ok (.invokestatic 7, 3) := by decide +kernel
theorem dX8_elect_12 : decode cX8_elect 12 = .ok (.invokevirtual 72, 3) := by decide +kernel
theorem dX8_elect_15 : decode cX8_elect 15 = .ok (.ifCond .ne 5, 3) := by decide +kernel
theorem dX8_elect_18 : decode cX8_elect 18 = .ok (.iconst 0, 1) := by decide +kernel
theorem dX8_elect_19 : decode cX8_elect 19 = .ok (.ireturn, 1) := by decide +kernel
theorem dX8_elect_20 : decode cX8_elect 20 = .ok (.iconst 0, 1) := by decide +kernel
theorem dX8_elect_21 : decode cX8_elect 21 = .ok (.istore_n 3, 1) := by decide +kernel
theorem dX8_elect_22 : decode cX8_elect 22 = .ok (.iload_n 3, 1) := by decide +kernel
theorem dX8_elect_23 : decode cX8_elect 23 = .ok (.bipush 102, 2) := by decide +kernel
theorem dX8_elect_25 : decode cX8_elect 25 = .ok (.if_icmp .ge 31, 3) := by decide +kernel
theorem dX8_elect_28 : decode cX8_elect 28 = .ok (.aload_n 0, 1) := by decide +kernel
theorem dX8_elect_29 : decode cX8_elect 29 = .ok (.getfield 27, 3) := by decide +kernel
theorem dX8_elect_32 : decode cX8_elect 32 = .ok (.iload_n 1, 1) := by decide +kernel
theorem dX8_elect_33 : decode cX8_elect 33 = .ok (.aaload, 1) := by decide +kernel
theorem dX8_elect_34 : decode cX8_elect 34 = .ok (.iload_n 3, 1) := by decide +kernel
theorem dX8_elect_35 : decode cX8_elect 35 = .ok (.aload_n 0, 1) := by decide +kernel
theorem dX8_elect_36 : decode cX8_elect 36 = .ok (.iload_n 3, 1) := by decide +kernel
theorem dX8_elect_37 : decode cX8_elect 37 = .ok (.invokevirtual 109, 3) := by decide +kernel
theorem dX8_elect_40 : decode cX8_elect 40 = .ok (.iload_n 2, 1) := by decide +kernel
theorem dX8_elect_41 : decode cX8_elect 41 = .ok (.if_icmp .lt 7, 3) := by decide +kernel
theorem dX8_elect_44 : decode cX8_elect 44 = .ok (.iconst 1, 1) := by decide +kernel
theorem dX8_elect_45 : decode cX8_elect 45 = .ok (.goto 4, 3) := by decide +kernel
theorem dX8_elect_48 : decode cX8_elect 48 = .ok (.iconst 0, 1) := by decide +kernel
theorem dX8_elect_49 : decode cX8_elect 49 = .ok (.bastore, 1) := by decide +kernel
theorem dX8_elect_50 : decode cX8_elect 50 = .ok (.iinc 3 1, 3) := by decide +kernel
theorem dX8_elect_53 : decode cX8_elect 53 = .ok (.goto (-31), 3) := by decide +kernel
theorem dX8_elect_56 : decode cX8_elect 56 = .ok (.aload_n 0, 1) := by decide +kernel
theorem dX8_elect_57 : decode cX8_elect 57 = .ok (.getfield 27, 3) := by decide +kernel
theorem dX8_elect_60 : decode cX8_elect 60 = .ok (.iload_n 1, 1) := by decide +kernel
theorem dX8_elect_61 : decode cX8_elect 61 = .ok (.aaload, 1) := by decide +kernel
theorem dX8_elect_62 : decode cX8_elect 62 = .ok (.invokestatic 80, 3) := by decide +kernel
theorem dX8_elect_65 : decode cX8_elect 65 = .ok (.ireturn, 1) := by decide +kernel
set_option maxRecDepth 20000 in
theorem ggX8_find_X8_areSame : GoodIn wsX8_find wsX8_areSame := goodIn_r _ [4, 5, 6, 3, 7] (by decide +kernel) (by decide +kernel)
set_option maxRecDepth 20000 in
theorem gX8_find_X8_areSame : GoodIn wsX8_find (va_wsS RX8 99 yX8_areSame wsX8_areSame) := goodIn_app (goodIn_of _ (by decide +kernel)) ggX8_find_X8_areSame
theorem dX8_find_0 : decode cX8_find 0 = .ok (.iconst 0, 1) := by decide +kernel
theorem dX8_find_1 : decode cX8_find 1 = .ok (.istore_n 3, 1) := by decide +kernel
theorem dX8_find_2 : decode cX8_find 2 = .ok (.iload_n 3, 1) := by decide +kernel
theorem dX8_find_3 : decode cX8_find 3 = .ok (.iload_n 1, 1) := by decide +kernel
theorem dX8_find_4 : decode cX8_find 4 = .ok (.if_icmp .ge 21, 3) := by decide +kernel
theorem dX8_find_7 : decode cX8_find 7 = .ok (.aload_n 0, 1) := by decide +kernel
theorem dX8_find_8 : decode cX8_find 8 = .ok (.iload_n 3, 1) := by decide +kernel
theorem dX8_find_9 : decode cX8_find 9 = .ok (.aaload, 1) := by decide +kernel
theorem dX8_find_10 : decode cX8_find 10 = .ok (.aload_n 2, 1) := by decide +kernel
theorem dX8_find_11 : decode cX8_find 11 = .ok (.invokestatic 99, 3) := by decide +kernel
theorem dX8_find_14 : decode cX8_find 14 = .ok (.ifCond .eq 5, 3) := by decide +kernel
theorem dX8_find_17 : decode cX8_find 17 = .ok (.iload_n 3, 1) := by decide +kernel
theorem dX8_find_18 : decode cX8_find 18 = .ok (.ireturn, 1) := by decide +kernel
theorem dX8_find_19 : decode cX8_find 19 = .ok (.iinc 3 1, 3) := by decide +kernel
theorem dX8_find_22 : decode cX8_find 22 = .ok (.goto (-20), 3) := by decide +kernel
theorem dX8_find_25 : decode cX8_find 25 = .ok (.iconst (-1), 1) := by decide +kernel
theorem dX8_find_26 : decode cX8_find 26 = .ok (.ireturn, 1) := by decide +kernel
set_option maxRecDepth 20000 in
theorem ggX8_isAhead_X8_firstOther : GoodIn wsX8_isAhead wsX8_firstOther := goodIn_r _ [4] (by decide +kernel) (by decide +kernel)
set_option maxRecDepth 20000 in
theorem gX8_isAhead_X8_firstOther : GoodIn wsX8_isAhead (va_wsS RX8 15 yX8_firstOther wsX8_firstOther) := goodIn_app (goodIn_of _ (by decide +kernel)) ggX8_isAhead_X8_firstOther
theorem dX8_isAhead_0 : decode cX8_isAhead 0 = .ok (.aload_n 0, 1) := by decide +kernel
theorem dX8_isAhead_1 : decode cX8_isAhead 1 = .ok (.aload_n 1, 1) := by decide +kernel
theorem dX8_isAhead_2 : decode cX8_isAhead 2 = .ok (.invokestatic 15, 3) := by decide +kernel
theorem dX8_isAhead_5 : decode cX8_isAhead 5 = .ok (.istore_n 2, 1) := by decide +kernel
theorem dX8_isAhead_6 : decode cX8_isAhead 6 = .ok (.iload_n 2, 1) := by decide +kernel
theorem dX8_isAhead_7 : decode cX8_isAhead 7 = .ok (.iconst (-1), 1) := by decide +kernel
theorem dX8_isAhead_8 : decode cX8_isAhead 8 = .ok (.if_icmp .eq 13, 3) := by decide +kernel
theorem dX8_isAhead_11 : decode cX8_isAhead 11 = .ok (.aload_n 0, 1) := by decide +kernel
theorem dX8_isAhead_12 : decode cX8_isAhead 12 = .ok (.iload_n 2, 1) := by decide +kernel
theorem dX8_isAhead_13 : decode cX8_isAhead 13 = .ok (.baload, 1) := by decide +kernel
theorem dX8_isAhead_14 : decode cX8_isAhead 14 = .ok (.ifCond .eq 7, 3) := by decide +kernel
theorem dX8_isAhead_17 : decode cX8_isAhead 17 = .ok (.iconst 1, 1) := by decide +kernel
theorem dX8_isAhead_18 : decode cX8_isAhead 18 = .ok (.goto 4, 3) := by decide +kernel
theorem dX8_isAhead_21 : decode cX8_isAhead 21 = .ok (.iconst 0, 1) := by decide +kernel
theorem dX8_isAhead_22 : decode cX8_isAhead 22 = .ok (.ireturn, 1) := by decide +kernel
set_option maxRecDepth 20000 in
theorem ggX8_inserts_X8_isAhead : GoodIn wsX8_inserts wsX8_isAhead := goodIn_r _ [4, 5, 6, 3, 7] (by decide +kernel) (by decide +kernel)
set_option maxRecDepth 20000 in
theorem gX8_inserts_X8_isAhead : GoodIn wsX8_inserts (va_wsS RX8 112 yX8_isAhead wsX8_isAhead) := goodIn_app (goodIn_of _ (by decide +kernel)) ggX8_inserts_X8_isAhead
set_option maxRecDepth 20000 in
theorem ggX8_inserts_X8_copies : GoodIn wsX8_inserts wsX8_copies := goodIn_r _ [10] (by decide +kernel) (by decide +kernel)
set_option maxRecDepth 20000 in
theorem gX8_inserts_X8_copies : GoodIn wsX8_inserts (va_wsS RX8 95 yX8_copies wsX8_copies) := goodIn_app (goodIn_of _ (by decide +kernel)) ggX8_inserts_X8_copies
theorem dX8_inserts_0 : decode cX8_inserts 0 = .ok (.iload_n 1, 1) := by decide +kernel
theorem dX8_inserts_1 : decode cX8_inserts 1 = .ok (.istore_n 3, 1) := by decide +kernel
theorem dX8_inserts_2 : decode cX8_inserts 2 = .ok (.iload_n 3, 1) := by decide +kernel
theorem dX8_inserts_3 : decode cX8_inserts 3 = .ok (.ifCond .le 32, 3) := by decide +kernel
theorem dX8_inserts_6 : decode cX8_inserts 6 = .ok (.aload_n 2, 1) := by decide +kernel
theorem dX8_inserts_7 : decode cX8_inserts 7 = .ok (.aload_n 0, 1) := by decide +kernel
theorem dX8_inserts_8 : decode cX8_inserts 8 = .ok (.iload_n 3, 1) := by decide +kernel
theorem dX8_inserts_9 : decode cX8_inserts 9 = .ok (.iconst 1, 1) := by decide +kernel
theorem dX8_inserts_10 : decode cX8_inserts 10 = .ok (.isub, 1) := by decide +kernel
theorem dX8_inserts_11 : decode cX8_inserts 11 = .ok (.aaload, 1) := by decide +kernel
theorem dX8_inserts_12 : decode cX8_inserts 12 = .ok (.invokestatic 112, 3) := by decide +kernel
theorem dX8_inserts_15 : decode cX8_inserts 15 = .ok (.ifCond .eq 20, 3) := by decide +kernel
theorem dX8_inserts_18 : decode cX8_inserts 18 = .ok (.aload_n 0, 1) := by decide +kernel
theorem dX8_inserts_19 : decode cX8_inserts 19 = .ok (.iload_n 3, 1) := by decide +kernel
theorem dX8_inserts_20 : decode cX8_inserts 20 = .ok (.iconst 1, 1) := by decide +kernel
theorem dX8_inserts_21 : decode cX8_inserts 21 = .ok (.isub, 1) := by decide +kernel
theorem dX8_inserts_22 : decode cX8_inserts 22 = .ok (.aaload, 1) := by decide +kernel
theorem dX8_inserts_23 : decode cX8_inserts 23 = .ok (.aload_n 0, 1) := by decide +kernel
theorem dX8_inserts_24 : decode cX8_inserts 24 = .ok (.iload_n 3, 1) := by decide +kernel
theorem dX8_inserts_25 : decode cX8_inserts 25 = .ok (.aaload, 1) := by decide +kernel
theorem dX8_inserts_26 : decode cX8_inserts 26 = .ok (.invokestatic 95, 3) := by decide +kernel
theorem dX8_inserts_29 : decode cX8_inserts 29 = .ok (.iinc 3 (-1), 3) := by decide +kernel
theorem dX8_inserts_32 : decode cX8_inserts 32 = .ok (.goto (-30), 3) := by decide +kernel
theorem dX8_inserts_35 : decode cX8_inserts 35 = .ok (.aload_n 2, 1) := by decide +kernel
theorem dX8_inserts_36 : decode cX8_inserts 36 = .ok (.aload_n 0, 1) := by decide +kernel
theorem dX8_inserts_37 : decode cX8_inserts 37 = .ok (.iload_n 3, 1) := by decide +kernel
theorem dX8_inserts_38 : decode cX8_inserts 38 = .ok (.aaload, 1) := by decide +kernel
theorem dX8_inserts_39 : decode cX8_inserts 39 = .ok (.invokestatic 95, 3) := by decide +kernel
theorem dX8_inserts_42 : decode cX8_inserts 42 = .ok (.return_, 1) := by decide +kernel
set_option maxRecDepth 20000 in
theorem ggX8_keep_X8_isSet : GoodIn wsX8_keep wsX8_isSet := goodIn_r _ [7, 8, 9, 6, 10] (by decide +kernel) (by decide +kernel)
set_option maxRecDepth 20000 in
theorem gX8_keep_X8_isSet : GoodIn wsX8_keep (va_wsS RX8 65 yX8_isSet wsX8_isSet) := goodIn_app (goodIn_of _ (by decide +kernel)) ggX8_keep_X8_isSet
set_option maxRecDepth 20000 in
theorem ggX8_keep_X8_find : GoodIn wsX8_keep wsX8_find := goodIn_r _ [13, 14, 15, 6, 16, 17, 18, 19] (by decide +kernel) (by decide +kernel)
set_option maxRecDepth 20000 in
theorem gX8_keep_X8_find : GoodIn wsX8_keep (va_wsS RX8 115 yX8_find wsX8_find) := goodIn_app (goodIn_of _ (by decide +kernel)) ggX8_keep_X8_find
set_option maxRecDepth 20000 in
theorem ggX8_keep_X8_passes : GoodIn wsX8_keep wsX8_passes := goodIn_r _ [23, 24, 34, 35, 36, 37, 38, 39, 40, 41, 42, 43, 44, 45, 46, 47, 48, 49, 50, 51, 52] (by decide +kernel) (by decide +kernel)
set_option maxRecDepth 20000 in
theorem gX8_keep_X8_passes : GoodIn wsX8_keep (wsV RX8 72 RX8 yX8_passes wsX8_passes) := goodIn_app (goodIn_of _ (by decide +kernel)) ggX8_keep_X8_passes
set_option maxRecDepth 20000 in
theorem ggX8_keep_X8_inserts : GoodIn wsX8_keep wsX8_inserts := goodIn_r _ [27, 28, 29, 6, 30, 17, 18, 19, 31, 32, 33] (by decide +kernel) (by decide +kernel)
set_option maxRecDepth 20000 in
theorem gX8_keep_X8_inserts : GoodIn wsX8_keep (va_wsS RX8 119 yX8_inserts wsX8_inserts) := goodIn_app (goodIn_of _ (by decide +kernel)) ggX8_keep_X8_inserts
theorem dX8_keep_0 : decode cX8_keep 0 = .ok (.iload_n 1, 1) := by decide +kernel
theorem dX8_keep_1 : decode cX8_keep 1 = .ok (.invokestatic 65, 3) := by decide +kernel
theorem dX8_keep_4 : decode cX8_keep 4 = .ok (.istore_n 2, 1) := by decide +kernel
theorem dX8_keep_5 : decode cX8_keep 5 = .ok (.iload_n 2, 1) := by decide +kernel
theorem dX8_keep_6 : decode cX8_keep 6 = .ok (.ifCond .eq 28, 3) := by decide +kernel
theorem dX8_keep_9 : decode cX8_keep 9 = .ok (.aload_n 0, 1) := by decide +kernel
theorem dX8_keep_10 : decode cX8_keep 10 = .ok (.getfield 34, 3) := by decide +kernel
theorem dX8_keep_13 : decode cX8_keep 13 = .ok (.aload_n 0, 1) := by decide +kernel
theorem dX8_keep_14 : decode cX8_keep 14 = .ok (.getfield 59, 3) := by decide +kernel
theorem dX8_keep_17 : decode cX8_keep 17 = .ok (.aload_n 0, 1) := by decide +kernel
theorem dX8_keep_18 : decode cX8_keep 18 = .ok (.getfield 27, 3) := by decide +kernel
theorem dX8_keep_21 : decode cX8_keep 21 = .ok (.iload_n 1, 1) := by decide +kernel
theorem dX8_keep_22 : decode cX8_keep 22 = .ok (.aaload, 1) := by decide +kernel
theorem dX8_keep_23 : decode cX8_keep 23 = .ok (.invokestatic 115, 3) := by decide +kernel
theorem dX8_keep_26 : decode cX8_keep 26 = .ok (.iconst (-1), 1) := by decide +kernel
theorem dX8_keep_27 : decode cX8_keep 27 = .ok (.if_icmp .ne 7, 3) := by decide +kernel
theorem dX8_keep_30 : decode cX8_keep 30 = .ok (.iconst 1, 1) := by decide +kernel
theorem dX8_keep_31 : decode cX8_keep 31 = .ok (.goto 4, 3) := by decide +kernel
theorem dX8_keep_34 : decode cX8_keep 34 = .ok (.iconst 0, 1) := by decide +kernel
theorem dX8_keep_35 : decode cX8_keep 35 = .ok (.istore_n 3, 1) := by decide +kernel
theorem dX8_keep_36 : decode cX8_keep 36 = .ok (.aload_n 0, 1) := by decide +kernel
theorem dX8_keep_37 : decode cX8_keep 37 = .ok (.iload_n 2, 1) := by decide +kernel
theorem dX8_keep_38 : decode cX8_keep 38 = .ok (.iload_n 3, 1) := by decide +kernel
theorem dX8_keep_39 : decode cX8_keep 39 = .ok (.ifCond .eq 12, 3) := by decide +kernel
theorem dX8_keep_42 : decode cX8_keep 42 = .ok (.aload_n 0, 1) := by decide +kernel
theorem dX8_keep_43 : decode cX8_keep 43 = .ok (.getfield 59, 3) := by decide +kernel
theorem dX8_keep_46 : decode cX8_keep 46 = .ok (.bipush 7, 2) := by decide +kernel
theorem dX8_keep_48 : decode cX8_keep 48 = .ok (.if_icmp .ge 7, 3) := by decide +kernel
theorem dX8_keep_51 : decode cX8_keep 51 = .ok (.iconst 1, 1) := by decide +kernel
theorem dX8_keep_52 : decode cX8_keep 52 = .ok (.goto 4, 3) := by decide +kernel
theorem dX8_keep_55 : decode cX8_keep 55 = .ok (.iconst 0, 1) := by decide +kernel
theorem dX8_keep_56 : decode cX8_keep 56 = .ok (.invokevirtual 72, 3) := by decide +kernel
theorem dX8_keep_59 : decode cX8_keep 59 = .ok (.ifCond .ne 5, 3) := by decide +kernel
theorem dX8_keep_62 : decode cX8_keep 62 = .ok (.iconst 0, 1) := by decide +kernel
theorem dX8_keep_63 : decode cX8_keep 63 = .ok (.ireturn, 1) := by decide +kernel
theorem dX8_keep_64 : decode cX8_keep 64 = .ok (.iload_n 3, 1) := by decide +kernel
theorem dX8_keep_65 : decode cX8_keep 65 = .ok (.ifCond .eq 30, 3) := by decide +kernel
theorem dX8_keep_68 : decode cX8_keep 68 = .ok (.aload_n 0, 1) := by decide +kernel
theorem dX8_keep_69 : decode cX8_keep 69 = .ok (.getfield 34, 3) := by decide +kernel
theorem dX8_keep_72 : decode cX8_keep 72 = .ok (.aload_n 0, 1) := by decide +kernel
theorem dX8_keep_73 : decode cX8_keep 73 = .ok (.getfield 59, 3) := by decide +kernel
theorem dX8_keep_76 : decode cX8_keep 76 = .ok (.aload_n 0, 1) := by decide +kernel
theorem dX8_keep_77 : decode cX8_keep 77 = .ok (.getfield 27, 3) := by decide +kernel
theorem dX8_keep_80 : decode cX8_keep 80 = .ok (.iload_n 1, 1) := by decide +kernel
theorem dX8_keep_81 : decode cX8_keep 81 = .ok (.aaload, 1) := by decide +kernel
theorem dX8_keep_82 : decode cX8_keep 82 = .ok (.invokestatic 119, 3) := by decide +kernel
theorem dX8_keep_85 : decode cX8_keep 85 = .ok (.aload_n 0, 1) := by decide +kernel
theorem dX8_keep_86 : decode cX8_keep 86 = .ok (.dup, 1) := by decide +kernel
theorem dX8_keep_87 : decode cX8_keep 87 = .ok (.getfield 59, 3) := by decide +kernel
theorem dX8_keep_90 : decode cX8_keep 90 = .ok (.iconst 1, 1) := by decide +kernel
theorem dX8_keep_91 : decode cX8_keep 91 = .ok (.iadd, 1) := by decide +kernel
theorem dX8_keep_92 : decode cX8_keep 92 = .ok (.putfield 59, 3) := by decide +kernel
theorem dX8_keep_95 : decode cX8_keep 95 = .ok (.iload_n 3, 1) := by decide +kernel
theorem dX8_keep_96 : decode cX8_keep 96 = .ok (.ireturn, 1) := by decide +kernel
set_option maxRecDepth 20000 in
theorem ggX8_drop_X8_isSet : GoodIn wsX8_drop wsX8_isSet := goodIn_r _ [7, 8, 9, 6, 10] (by decide +kernel) (by decide +kernel)
set_option maxRecDepth 20000 in
theorem gX8_drop_X8_isSet : GoodIn wsX8_drop (va_wsS RX8 65 yX8_isSet wsX8_isSet) := goodIn_app (goodIn_of _ (by decide +kernel)) ggX8_drop_X8_isSet
set_option maxRecDepth 20000 in
theorem ggX8_drop_X8_passes : GoodIn wsX8_drop wsX8_passes := goodIn_r _ [14, 15, 28, 29, 30, 31, 32, 33, 34, 35, 36, 37, 38, 39, 40, 41, 42, 43, 44, 45, 46] (by decide +kernel) (by decide +kernel)
set_option maxRecDepth 20000 in
theorem gX8_drop_X8_passes : GoodIn wsX8_drop (wsV RX8 72 RX8 yX8_passes wsX8_passes) := goodIn_app (goodIn_of _ (by decide +kernel)) ggX8_drop_X8_passes
set_option maxRecDepth 20000 in
theorem ggX8_drop_X8_find : GoodIn wsX8_drop wsX8_find := goodIn_r _ [18, 19, 20, 6, 21, 22, 23, 24] (by decide +kernel) (by decide +kernel)
set_option maxRecDepth 20000 in
theorem gX8_drop_X8_find : GoodIn wsX8_drop (va_wsS RX8 115 yX8_find wsX8_find) := goodIn_app (goodIn_of _ (by decide +kernel)) ggX8_drop_X8_find
set_option maxRecDepth 20000 in
theorem ggX8_drop_X8_copies : GoodIn wsX8_drop wsX8_copies := goodIn_r _ [27] (by decide +kernel) (by decide +kernel)
set_option maxRecDepth 20000 in
theorem gX8_drop_X8_copies : GoodIn wsX8_drop (va_wsS RX8 95 yX8_copies wsX8_copies) := goodIn_app (goodIn_of _ (by decide +kernel)) ggX8_drop_X8_copies
theorem dX8_drop_0 : decode cX8_drop 0 = .ok (.aload_n 0, 1) := by decide +kernel
theorem dX8_drop_1 : decode cX8_drop 1 = .ok (.iload_n 1, 1) := by decide +kernel
theorem dX8_drop_2 : decode cX8_drop 2 = .ok (.invokestatic 65, 3) := by decide +kernel
theorem dX8_drop_5 : decode cX8_drop 5 = .ok (.iconst 1, 1) := by decide +kernel
theorem dX8_drop_6 : decode cX8_drop 6 = .ok (.invokevirtual 72, 3) := by decide +kernel
theorem dX8_drop_9 : decode cX8_drop 9 = .ok (.ifCond .ne 5, 3) := by decide +kernel
theorem dX8_drop_12 : decode cX8_drop 12 = .ok (.iconst 0, 1) := by decide +kernel
theorem dX8_drop_13 : decode cX8_drop 13 = .ok (.ireturn, 1) := by decide +kernel
theorem dX8_drop_14 : decode cX8_drop 14 = .ok (.aload_n 0, 1) := by decide +kernel
theorem dX8_drop_15 : decode cX8_drop 15 = .ok (.getfield 34, 3) := by decide +kernel
theorem dX8_drop_18 : decode cX8_drop 18 = .ok (.aload_n 0, 1) := by decide +kernel
theorem dX8_drop_19 : decode cX8_drop 19 = .ok (.getfield 59, 3) := by decide +kernel
theorem dX8_drop_22 : decode cX8_drop 22 = .ok (.aload_n 0, 1) := by decide +kernel
theorem dX8_drop_23 : decode cX8_drop 23 = .ok (.getfield 27, 3) := by decide +kernel
theorem dX8_drop_26 : decode cX8_drop 26 = .ok (.iload_n 1, 1) := by decide +kernel
theorem dX8_drop_27 : decode cX8_drop 27 = .ok (.aaload, 1) := by decide +kernel
theorem dX8_drop_28 : decode cX8_drop 28 = .ok (.invokestatic 115, 3) := by decide +kernel
theorem dX8_drop_31 : decode cX8_drop 31 = .ok (.istore_n 2, 1) := by decide +kernel
theorem dX8_drop_32 : decode cX8_drop 32 = .ok (.iload_n 2, 1) := by decide +kernel
theorem dX8_drop_33 : decode cX8_drop 33 = .ok (.iconst (-1), 1) := by decide +kernel
theorem dX8_drop_34 : decode cX8_drop 34 = .ok (.if_icmp .ne 5, 3) := by decide +kernel
theorem dX8_drop_37 : decode cX8_drop 37 = .ok (.iconst 0, 1) := by decide +kernel
theorem dX8_drop_38 : decode cX8_drop 38 = .ok (.ireturn, 1) := by decide +kernel
theorem dX8_drop_39 : decode cX8_drop 39 = .ok (.aload_n 0, 1) := by decide +kernel
theorem dX8_drop_40 : decode cX8_drop 40 = .ok (.dup, 1) := by decide +kernel
theorem dX8_drop_41 : decode cX8_drop 41 = .ok (.getfield 59, 3) := by decide +kernel
theorem dX8_drop_44 : decode cX8_drop 44 = .ok (.iconst 1, 1) := by decide +kernel
theorem dX8_drop_45 : decode cX8_drop 45 = .ok (.isub, 1) := by decide +kernel
theorem dX8_drop_46 : decode cX8_drop 46 = .ok (.putfield 59, 3) := by decide +kernel
theorem dX8_drop_49 : decode cX8_drop 49 = .ok (.iload_n 2, 1) := by decide +kernel
theorem dX8_drop_50 : decode cX8_drop 50 = .ok (.istore_n 3, 1) := by decide +kernel
theorem dX8_drop_51 : decode cX8_drop 51 = .ok (.iload_n 3, 1) := by decide +kernel
theorem dX8_drop_52 : decode cX8_drop 52 = .ok (.aload_n 0, 1) := by decide +kernel
theorem dX8_drop_53 : decode cX8_drop 53 = .ok (.getfield 59, 3) := by decide +kernel
theorem dX8_drop_56 : decode cX8_drop 56 = .ok (.if_icmp .ge 26, 3) := by decide +kernel
theorem dX8_drop_59 : decode cX8_drop 59 = .ok (.aload_n 0, 1) := by decide +kernel
theorem dX8_drop_60 : decode cX8_drop 60 = .ok (.getfield 34, 3) := by decide +kernel
theorem dX8_drop_63 : decode cX8_drop 63 = .ok (.iload_n 3, 1) := by decide +kernel
theorem dX8_drop_64 : decode cX8_drop 64 = .ok (.iconst 1, 1) := by decide +kernel
theorem dX8_drop_65 : decode cX8_drop 65 = .ok (.iadd, 1) := by decide +kernel
theorem dX8_drop_66 : decode cX8_drop 66 = .ok (.aaload, 1) := by decide +kernel
theorem dX8_drop_67 : decode cX8_drop 67 = .ok (.aload_n 0, 1) := by decide +kernel
theorem dX8_drop_68 : decode cX8_drop 68 = .ok (.getfield 34, 3) := by decide +kernel
theorem dX8_drop_71 : decode cX8_drop 71 = .ok (.iload_n 3, 1) := by decide +kernel
theorem dX8_drop_72 : decode cX8_drop 72 = .ok (.aaload, 1) := by decide +kernel
theorem dX8_drop_73 : decode cX8_drop 73 = .ok (.invokestatic 95, 3) := by decide +kernel
theorem dX8_drop_76 : decode cX8_drop 76 = .ok (.iinc 3 1, 3) := by decide +kernel
theorem dX8_drop_79 : decode cX8_drop 79 = .ok (.goto (-28), 3) := by decide +kernel
theorem dX8_drop_82 : decode cX8_drop 82 = .ok (.iconst 1, 1) := by decide +kernel
theorem dX8_drop_83 : decode cX8_drop 83 = .ok (.ireturn, 1) := by decide +kernel
set_option maxRecDepth 20000 in
theorem ggX8_isKept_X8_isSet : GoodIn wsX8_isKept wsX8_isSet := goodIn_r _ [7, 8, 9, 6, 10] (by decide +kernel) (by decide +kernel)
set_option maxRecDepth 20000 in
theorem gX8_isKept_X8_isSet : GoodIn wsX8_isKept (va_wsS RX8 65 yX8_isSet wsX8_isSet) := goodIn_app (goodIn_of _ (by decide +kernel)) ggX8_isKept_X8_isSet
set_option maxRecDepth 20000 in
theorem ggX8_isKept_X8_passes : GoodIn wsX8_isKept wsX8_passes := goodIn_r _ [14, 15, 25, 26, 27, 28, 29, 30, 31, 32, 33, 34, 35, 36, 37, 38, 39, 40, 41, 42, 43] (by decide +kernel) (by decide +kernel)
set_option maxRecDepth 20000 in
theorem gX8_isKept_X8_passes : GoodIn wsX8_isKept (wsV RX8 72 RX8 yX8_passes wsX8_passes) := goodIn_app (goodIn_of _ (by decide +kernel)) ggX8_isKept_X8_passes
set_option maxRecDepth 20000 in
theorem ggX8_isKept_X8_find : GoodIn wsX8_isKept wsX8_find := goodIn_r _ [18, 19, 20, 6, 21, 22, 23, 24] (by decide +kernel) (by decide +kernel)
set_option maxRecDepth 20000 in
theorem gX8_isKept_X8_find : GoodIn wsX8_isKept (va_wsS RX8 115 yX8_find wsX8_find) := goodIn_app (goodIn_of _ (by decide +kernel)) ggX8_isKept_X8_find
theorem dX8_isKept_0 : decode cX8_isKept 0 = .ok (.aload_n 0, 1) := by decide +kernel
theorem dX8_isKept_1 : decode cX8_isKept 1 = .ok (.iload_n 1, 1) := by decide +kernel
theorem dX8_isKept_2 : decode cX8_isKept 2 = .ok (.invokestatic 65, 3) := by decide +kernel
theorem dX8_isKept_5 : decode cX8_isKept 5 = .ok (.iconst 1, 1) := by decide +kernel
theorem dX8_isKept_6 : decode cX8_isKept 6 = .ok (.invokevirtual 72, 3) := by decide +kernel
theorem dX8_isKept_9 : decode cX8_isKept 9 = .ok (.ifCond .eq 28, 3) := by decide +kernel
theorem dX8_isKept_12 : decode cX8_isKept 12 = .ok (.aload_n 0, 1) := by decide +kernel
theorem dX8_isKept_13 : decode cX8_isKept 13 = .ok (.getfield 34, 3) := by decide +kernel
theorem dX8_isKept_16 : decode cX8_isKept 16 = .ok (.aload_n 0, 1) := by decide +kernel
theorem dX8_isKept_17 : decode cX8_isKept 17 = .ok (.getfield 59, 3) := by decide +kernel
theorem dX8_isKept_20 : decode cX8_isKept 20 = .ok (.aload_n 0, 1) := by decide +kernel
theorem dX8_isKept_21 : decode cX8_isKept 21 = .ok (.getfield 27, 3) := by decide +kernel
theorem dX8_isKept_24 : decode cX8_isKept 24 = .ok (.iload_n 1, 1) := by decide +kernel
theorem dX8_isKept_25 : decode cX8_isKept 25 = .ok (.aaload, 1) := by decide +kernel
theorem dX8_isKept_26 : decode cX8_isKept 26 = .ok (.invokestatic 115, 3) := by decide +kernel
theorem dX8_isKept_29 : decode cX8_isKept 29 = .ok (.iconst (-1), 1) := by decide +kernel
theorem dX8_isKept_30 : decode cX8_isKept 30 = .ok (.if_icmp .eq 7, 3) := by decide +kernel
theorem dX8_isKept_33 : decode cX8_isKept 33 = .ok (.iconst 1, 1) := by decide +kernel
theorem dX8_isKept_34 : decode cX8_isKept 34 = .ok (.goto 4, 3) := by decide +kernel
theorem dX8_isKept_37 : decode cX8_isKept 37 = .ok (.iconst 0, 1) := by decide +kernel
theorem dX8_isKept_38 : decode cX8_isKept 38 = .ok (.ireturn, 1) := by decide +kernel
theorem dX8_kept_0 : decode cX8_kept 0 = .ok (.aload_n 0, 1) := by decide +kernel
theorem dX8_kept_1 : decode cX8_kept 1 = .ok (.iconst 0, 1) := by decide +kernel
theorem dX8_kept_2 : decode cX8_kept 2 = .ok (.putfield 3, 3) := by decide +kernel
theorem dX8_kept_5 : decode cX8_kept 5 = .ok (.aload_n 0, 1) := by decide +kernel
theorem dX8_kept_6 : decode cX8_kept 6 = .ok (.getfield 59, 3) := by decide +kernel
theorem dX8_kept_9 : decode cX8_kept 9 = .ok (.ireturn, 1) := by decide +kernel
set_option maxRecDepth 20000 in
theorem ggX8_keptSum_X8_sumOf : GoodIn wsX8_keptSum wsX8_sumOf := goodIn_r _ [7, 8, 9, 6, 10] (by decide +kernel) (by decide +kernel)
set_option maxRecDepth 20000 in
theorem gX8_keptSum_X8_sumOf : GoodIn wsX8_keptSum (va_wsS RX8 84 yX8_sumOf wsX8_sumOf) := goodIn_app (goodIn_of _ (by decide +kernel)) ggX8_keptSum_X8_sumOf
theorem dX8_keptSum_0 : decode cX8_keptSum 0 = .ok (.aload_n 0, 1) := by decide +kernel
theorem dX8_keptSum_1 : decode cX8_keptSum 1 = .ok (.iconst 0, 1) := by decide +kernel
theorem dX8_keptSum_2 : decode cX8_keptSum 2 = .ok (.putfield 3, 3) := by decide +kernel
theorem dX8_keptSum_5 : decode cX8_keptSum 5 = .ok (.iconst 0, 1) := by decide +kernel
theorem dX8_keptSum_6 : decode cX8_keptSum 6 = .ok (.istore_n 1, 1) := by decide +kernel
theorem dX8_keptSum_7 : decode cX8_keptSum 7 = .ok (.iconst 0, 1) := by decide +kernel
theorem dX8_keptSum_8 : decode cX8_keptSum 8 = .ok (.istore_n 2, 1) := by decide +kernel
theorem dX8_keptSum_9 : decode cX8_keptSum 9 = .ok (.iload_n 2, 1) := by decide +kernel
theorem dX8_keptSum_10 : decode cX8_keptSum 10 = .ok (.aload_n 0, 1) := by decide +kernel
theorem dX8_keptSum_11 : decode cX8_keptSum 11 = .ok (.getfield 59, 3) := by decide +kernel
theorem dX8_keptSum_14 : decode cX8_keptSum 14 = .ok (.if_icmp .ge 21, 3) := by decide +kernel
theorem dX8_keptSum_17 : decode cX8_keptSum 17 = .ok (.iload_n 1, 1) := by decide +kernel
theorem dX8_keptSum_18 : decode cX8_keptSum 18 = .ok (.aload_n 0, 1) := by decide +kernel
theorem dX8_keptSum_19 : decode cX8_keptSum 19 = .ok (.getfield 34, 3) := by decide +kernel
theorem dX8_keptSum_22 : decode cX8_keptSum 22 = .ok (.iload_n 2, 1) := by decide +kernel
theorem dX8_keptSum_23 : decode cX8_keptSum 23 = .ok (.aaload, 1) := by decide +kernel
theorem dX8_keptSum_24 : decode cX8_keptSum 24 = .ok (.invokestatic 84, 3) := by decide +kernel
theorem dX8_keptSum_27 : decode cX8_keptSum 27 = .ok (.iadd, 1) := by decide +kernel
theorem dX8_keptSum_28 : decode cX8_keptSum 28 = .ok (.istore_n 1, 1) := by decide +kernel
theorem dX8_keptSum_29 : decode cX8_keptSum 29 = .ok (.iinc 2 1, 3) := by decide +kernel
theorem dX8_keptSum_32 : decode cX8_keptSum 32 = .ok (.goto (-23), 3) := by decide +kernel
theorem dX8_keptSum_35 : decode cX8_keptSum 35 = .ok (.iload_n 1, 1) := by decide +kernel
theorem dX8_keptSum_36 : decode cX8_keptSum 36 = .ok (.ireturn, 1) := by decide +kernel
theorem dX8_dropAll_0 : decode cX8_dropAll 0 = .ok (.aload_n 0, 1) := by decide +kernel
theorem dX8_dropAll_1 : decode cX8_dropAll 1 = .ok (.iconst 0, 1) := by decide +kernel
theorem dX8_dropAll_2 : decode cX8_dropAll 2 = .ok (.putfield 3, 3) := by decide +kernel
theorem dX8_dropAll_5 : decode cX8_dropAll 5 = .ok (.aload_n 0, 1) := by decide +kernel
theorem dX8_dropAll_6 : decode cX8_dropAll 6 = .ok (.getfield 59, 3) := by decide +kernel
theorem dX8_dropAll_9 : decode cX8_dropAll 9 = .ok (.istore_n 1, 1) := by decide +kernel
theorem dX8_dropAll_10 : decode cX8_dropAll 10 = .ok (.aload_n 0, 1) := by decide +kernel
theorem dX8_dropAll_11 : decode cX8_dropAll 11 = .ok (.iconst 0, 1) := by decide +kernel
theorem dX8_dropAll_12 : decode cX8_dropAll 12 = .ok (.putfield 59, 3) := by decide +kernel
theorem dX8_dropAll_15 : decode cX8_dropAll 15 = .ok (.iload_n 1, 1) := by decide +kernel
theorem dX8_dropAll_16 : decode cX8_dropAll 16 = .ok (.ireturn, 1) := by decide +kernel
set_option maxRecDepth 20000 in
theorem ggX8_placeOf_X8_isSet : GoodIn wsX8_placeOf wsX8_isSet := goodIn_r _ [7, 8, 9, 6, 10] (by decide +kernel) (by decide +kernel)
set_option maxRecDepth 20000 in
theorem gX8_placeOf_X8_isSet : GoodIn wsX8_placeOf (va_wsS RX8 65 yX8_isSet wsX8_isSet) := goodIn_app (goodIn_of _ (by decide +kernel)) ggX8_placeOf_X8_isSet
set_option maxRecDepth 20000 in
theorem ggX8_placeOf_X8_passes : GoodIn wsX8_placeOf wsX8_passes := goodIn_r _ [14, 15, 25, 26, 27, 28, 29, 30, 31, 32, 33, 34, 35, 36, 37, 38, 39, 40, 41, 42, 43] (by decide +kernel) (by decide +kernel)
set_option maxRecDepth 20000 in
theorem gX8_placeOf_X8_passes : GoodIn wsX8_placeOf (wsV RX8 72 RX8 yX8_passes wsX8_passes) := goodIn_app (goodIn_of _ (by decide +kernel)) ggX8_placeOf_X8_passes
set_option maxRecDepth 20000 in
theorem ggX8_placeOf_X8_find : GoodIn wsX8_placeOf wsX8_find := goodIn_r _ [18, 19, 20, 6, 21, 22, 23, 24] (by decide +kernel) (by decide +kernel)
set_option maxRecDepth 20000 in
theorem gX8_placeOf_X8_find : GoodIn wsX8_placeOf (va_wsS RX8 115 yX8_find wsX8_find) := goodIn_app (goodIn_of _ (by decide +kernel)) ggX8_placeOf_X8_find
theorem dX8_placeOf_0 : decode cX8_placeOf 0 = .ok (.aload_n 0, 1) := by decide +kernel
theorem dX8_placeOf_1 : decode cX8_placeOf 1 = .ok (.iload_n 1, 1) := by decide +kernel
theorem dX8_placeOf_2 : decode cX8_placeOf 2 = .ok (.invokestatic 65, 3) := by decide +kernel
theorem dX8_placeOf_5 : decode cX8_placeOf 5 = .ok (.iconst 1, 1) := by decide +kernel
theorem dX8_placeOf_6 : decode cX8_placeOf 6 = .ok (.invokevirtual 72, 3) := by decide +kernel
theorem dX8_placeOf_9 : decode cX8_placeOf 9 = .ok (.ifCond .eq 23, 3) := by decide +kernel
theorem dX8_placeOf_12 : decode cX8_placeOf 12 = .ok (.aload_n 0, 1) := by decide +kernel
theorem dX8_placeOf_13 : decode cX8_placeOf 13 = .ok (.getfield 34, 3) := by decide +kernel
theorem dX8_placeOf_16 : decode cX8_placeOf 16 = .ok (.aload_n 0, 1) := by decide +kernel
theorem dX8_placeOf_17 : decode cX8_placeOf 17 = .ok (.getfield 59, 3) := by decide +kernel
theorem dX8_placeOf_20 : decode cX8_placeOf 20 = .ok (.aload_n 0, 1) := by decide +kernel
theorem dX8_placeOf_21 : decode cX8_placeOf 21 = .ok (.getfield 27, 3) := by decide +kernel
theorem dX8_placeOf_24 : decode cX8_placeOf 24 = .ok (.iload_n 1, 1) := by decide +kernel
theorem dX8_placeOf_25 : decode cX8_placeOf 25 = .ok (.aaload, 1) := by decide +kernel
theorem dX8_placeOf_26 : decode cX8_placeOf 26 = .ok (.invokestatic 115, 3) := by decide +kernel
theorem dX8_placeOf_29 : decode cX8_placeOf 29 = .ok (.goto 4, 3) := by decide +kernel
theorem dX8_placeOf_32 : decode cX8_placeOf 32 = .ok (.iconst 0, 1) := by decide +kernel
theorem dX8_placeOf_33 : decode cX8_placeOf 33 = .ok (.ireturn, 1) := by decide +kernel
set_option maxRecDepth 20000 in
theorem ggX8_take_X8_isSet : GoodIn wsX8_take wsX8_isSet := goodIn_r _ [7, 8, 9, 6, 10] (by decide +kernel) (by decide +kernel)
set_option maxRecDepth 20000 in
theorem gX8_take_X8_isSet : GoodIn wsX8_take (va_wsS RX8 65 yX8_isSet wsX8_isSet) := goodIn_app (goodIn_of _ (by decide +kernel)) ggX8_take_X8_isSet
set_option maxRecDepth 20000 in
theorem ggX8_take_X8_in : GoodIn wsX8_take wsX8_in := goodIn_r _ [10] (by decide +kernel) (by decide +kernel)
set_option maxRecDepth 20000 in
theorem gX8_take_X8_in : GoodIn wsX8_take (va_wsS RX8 7 yX8_in wsX8_in) := goodIn_app (goodIn_of _ (by decide +kernel)) ggX8_take_X8_in
set_option maxRecDepth 20000 in
theorem ggX8_take_X8_passes : GoodIn wsX8_take wsX8_passes := goodIn_r _ [14, 15, 22, 23, 24, 25, 26, 27, 28, 29, 30, 31, 32, 33, 34, 35, 36, 37, 38, 39, 40] (by decide +kernel) (by decide +kernel)
set_option maxRecDepth 20000 in
theorem gX8_take_X8_passes : GoodIn wsX8_take (wsV RX8 72 RX8 yX8_passes wsX8_passes) := goodIn_app (goodIn_of _ (by decide +kernel)) ggX8_take_X8_passes
set_option maxRecDepth 20000 in
theorem ggX8_take_X8_copies : GoodIn wsX8_take wsX8_copies := goodIn_r _ [18] (by decide +kernel) (by decide +kernel)
set_option maxRecDepth 20000 in
theorem gX8_take_X8_copies : GoodIn wsX8_take (va_wsS RX8 95 yX8_copies wsX8_copies) := goodIn_app (goodIn_of _ (by decide +kernel)) ggX8_take_X8_copies
set_option maxRecDepth 20000 in
theorem ggX8_take_X8_sizeOf : GoodIn wsX8_take wsX8_sizeOf := goodIn_r _ [21] (by decide +kernel) (by decide +kernel)
set_option maxRecDepth 20000 in
theorem gX8_take_X8_sizeOf : GoodIn wsX8_take (va_wsS RX8 80 yX8_sizeOf wsX8_sizeOf) := goodIn_app (goodIn_of _ (by decide +kernel)) ggX8_take_X8_sizeOf
theorem dX8_take_0 : decode cX8_take 0 = .ok (.aload_n 0, 1) := by decide +kernel
theorem dX8_take_1 : decode cX8_take 1 = .ok (.iload_n 1, 1) := by decide +kernel
theorem dX8_take_2 : decode cX8_take 2 = .ok (.invokestatic 65, 3) := by decide +kernel
theorem dX8_take_5 : decode cX8_take 5 = .ok (.iload_n 2, 1) := by decide +kernel
theorem dX8_take_6 : decode cX8_take 6 = .ok (.iconst 0, 1) := by decide +kernel
theorem dX8_take_7 : decode cX8_take 7 = .ok (.aload_n 0, 1) := by decide +kernel
theorem dX8_take_8 : decode cX8_take 8 = .ok (.getfield 59, 3) := by decide +kernel
theorem dX8_take_11 : decode cX8_take 11 = .ok (.iconst 1, 1) := by decide +kernel
theorem dX8_take_12 : decode cX8_take 12 = .ok (.isub, 1) := by decide +kernel
theorem dX8_take_13 : decode cX8_take 13 = .ok (.invokestatic 7, 3) := by decide +kernel
theorem dX8_take_16 : decode cX8_take 16 = .ok (.invokevirtual 72, 3) := by decide +kernel
theorem dX8_take_19 : decode cX8_take 19 = .ok (.ifCond .ne 5, 3) := by decide +kernel
theorem dX8_take_22 : decode cX8_take 22 = .ok (.iconst 0, 1) := by decide +kernel
theorem dX8_take_23 : decode cX8_take 23 = .ok (.ireturn, 1) := by decide +kernel
theorem dX8_take_24 : decode cX8_take 24 = .ok (.aload_n 0, 1) := by decide +kernel
theorem dX8_take_25 : decode cX8_take 25 = .ok (.getfield 34, 3) := by decide +kernel
theorem dX8_take_28 : decode cX8_take 28 = .ok (.iload_n 2, 1) := by decide +kernel
theorem dX8_take_29 : decode cX8_take 29 = .ok (.aaload, 1) := by decide +kernel
theorem dX8_take_30 : decode cX8_take 30 = .ok (.aload_n 0, 1) := by decide +kernel
theorem dX8_take_31 : decode cX8_take 31 = .ok (.getfield 27, 3) := by decide +kernel
theorem dX8_take_34 : decode cX8_take 34 = .ok (.iload_n 1, 1) := by decide +kernel
theorem dX8_take_35 : decode cX8_take 35 = .ok (.aaload, 1) := by decide +kernel
theorem dX8_take_36 : decode cX8_take 36 = .ok (.invokestatic 95, 3) := by decide +kernel
theorem dX8_take_39 : decode cX8_take 39 = .ok (.aload_n 0, 1) := by decide +kernel
theorem dX8_take_40 : decode cX8_take 40 = .ok (.getfield 27, 3) := by decide +kernel
theorem dX8_take_43 : decode cX8_take 43 = .ok (.iload_n 1, 1) := by decide +kernel
theorem dX8_take_44 : decode cX8_take 44 = .ok (.aaload, 1) := by decide +kernel
theorem dX8_take_45 : decode cX8_take 45 = .ok (.invokestatic 80, 3) := by decide +kernel
theorem dX8_take_48 : decode cX8_take 48 = .ok (.ireturn, 1) := by decide +kernel
