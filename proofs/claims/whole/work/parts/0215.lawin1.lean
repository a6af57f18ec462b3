set_option maxRecDepth 20000 in
theorem wsL_law0_r1_in : ∀ w ∈ wsL_law0_r1, w ∈ lw_tbl := fun w h => (goodIn_p wsL_law0_r1 [98, 101] (by decide +kernel) (by decide +kernel) w h).1
set_option maxRecDepth 20000 in
theorem wsL_law0_r2_in : ∀ w ∈ wsL_law0_r2, w ∈ lw_tbl := fun w h => (goodIn_p wsL_law0_r2 [109] (by decide +kernel) (by decide +kernel) w h).1
set_option maxRecDepth 20000 in
theorem wsL_law0_r3_in : ∀ w ∈ wsL_law0_r3, w ∈ lw_tbl := fun w h => (goodIn_p wsL_law0_r3 [121, 131, 149, 163] (by decide +kernel) (by decide +kernel) w h).1
set_option maxRecDepth 20000 in
theorem wsL_law0_r4_in : ∀ w ∈ wsL_law0_r4, w ∈ lw_tbl := fun w h => (goodIn_p wsL_law0_r4 [219, 1228] (by decide +kernel) (by decide +kernel) w h).1
set_option maxRecDepth 20000 in
theorem wsL_law0_r5_in : ∀ w ∈ wsL_law0_r5, w ∈ lw_tbl := fun w h => (goodIn_p wsL_law0_r5 [602] (by decide +kernel) (by decide +kernel) w h).1
set_option maxRecDepth 20000 in
theorem wsL_law0_r6_in : ∀ w ∈ wsL_law0_r6, w ∈ lw_tbl := fun w h => (goodIn_p wsL_law0_r6 [606, 625, 628, 524, 281, 528] (by decide +kernel) (by decide +kernel) w h).1
set_option maxRecDepth 20000 in
theorem wsL_law0_r7_in : ∀ w ∈ wsL_law0_r7, w ∈ lw_tbl := fun w h => (goodIn_p wsL_law0_r7 [1293, 1296, 1299, 1302, 1306, 1310, 1313] (by decide +kernel) (by decide +kernel) w h).1
set_option maxRecDepth 20000 in
theorem wsL_law0_r8_in : ∀ w ∈ wsL_law0_r8, w ∈ lw_tbl := fun w h => (goodIn_p wsL_law0_r8 [1223, 639, 643, 1317] (by decide +kernel) (by decide +kernel) w h).1
set_option maxRecDepth 20000 in
theorem wsL_law0_r9_in : ∀ w ∈ wsL_law0_r9, w ∈ lw_tbl := fun w h => (goodIn_p wsL_law0_r9 [650, 1321, 657, 576, 579] (by decide +kernel) (by decide +kernel) w h).1
set_option maxRecDepth 20000 in
theorem wsL_law0_r10_in : ∀ w ∈ wsL_law0_r10, w ∈ lw_tbl := fun w h => (goodIn_p wsL_law0_r10 [1325, 1328, 664, 277, 1332] (by decide +kernel) (by decide +kernel) w h).1
set_option maxRecDepth 20000 in
theorem wsL_law0_r11_in : ∀ w ∈ wsL_law0_r11, w ∈ lw_tbl := fun w h => (goodIn_p wsL_law0_r11 [1335, 1338, 672, 396, 1342, 1345] (by decide +kernel) (by decide +kernel) w h).1
set_option maxRecDepth 20000 in
theorem wsL_law0_r12_in : ∀ w ∈ wsL_law0_r12, w ∈ lw_tbl := fun w h => (goodIn_p wsL_law0_r12 [680, 683, 1349, 692] (by decide +kernel) (by decide +kernel) w h).1
set_option maxRecDepth 20000 in
theorem wsL_law0_r13_in : ∀ w ∈ wsL_law0_r13, w ∈ lw_tbl := fun w h => (goodIn_p wsL_law0_r13 [696, 715, 1353, 1356, 722, 726] (by decide +kernel) (by decide +kernel) w h).1
set_option maxRecDepth 20000 in
theorem wsL_law0_r14_in : ∀ w ∈ wsL_law0_r14, w ∈ lw_tbl := fun w h => (goodIn_p wsL_law0_r14 [729, 1360, 737, 741, 1364] (by decide +kernel) (by decide +kernel) w h).1
set_option maxRecDepth 20000 in
theorem wsL_law0_r15_in : ∀ w ∈ wsL_law0_r15, w ∈ lw_tbl := fun w h => (goodIn_p wsL_law0_r15 [748, 400, 1368, 1372, 1375, 1378] (by decide +kernel) (by decide +kernel) w h).1
set_option maxRecDepth 20000 in
theorem wsL_law0_r16_in : ∀ w ∈ wsL_law0_r16, w ∈ lw_tbl := fun w h => (goodIn_p wsL_law0_r16 [1381, 756, 1385, 763] (by decide +kernel) (by decide +kernel) w h).1
set_option maxRecDepth 20000 in
theorem wsL_law0_r17_in : ∀ w ∈ wsL_law0_r17, w ∈ lw_tbl := fun w h => (goodIn_p wsL_law0_r17 [1389, 770, 442, 1393, 778] (by decide +kernel) (by decide +kernel) w h).1
set_option maxRecDepth 20000 in
theorem wsL_law0_r18_in : ∀ w ∈ wsL_law0_r18, w ∈ lw_tbl := fun w h => (goodIn_p wsL_law0_r18 [781, 1397, 788, 301, 1401] (by decide +kernel) (by decide +kernel) w h).1
set_option maxRecDepth 20000 in
theorem wsL_law0_r19_in : ∀ w ∈ wsL_law0_r19, w ∈ lw_tbl := fun w h => (goodIn_p wsL_law0_r19 [1404, 796, 800, 1408, 807] (by decide +kernel) (by decide +kernel) w h).1
