set_option maxRecDepth 20000 in
theorem wsL_law0_r20_in : ∀ w ∈ wsL_law0_r20, w ∈ lw_tbl := fun w h => (goodIn_p wsL_law0_r20 [404, 1412, 815, 591, 1416] (by decide +kernel) (by decide +kernel) w h).1
set_option maxRecDepth 20000 in
theorem wsL_law0_r21_in : ∀ w ∈ wsL_law0_r21, w ∈ lw_tbl := fun w h => (goodIn_p wsL_law0_r21 [1420, 822, 1424, 830] (by decide +kernel) (by decide +kernel) w h).1
set_option maxRecDepth 20000 in
theorem wsL_law0_r22_in : ∀ w ∈ wsL_law0_r22, w ∈ lw_tbl := fun w h => (goodIn_p wsL_law0_r22 [834, 838, 843, 1428, 1431, 1434] (by decide +kernel) (by decide +kernel) w h).1
set_option maxRecDepth 20000 in
theorem wsL_law0_r23_in : ∀ w ∈ wsL_law0_r23, w ∈ lw_tbl := fun w h => (goodIn_p wsL_law0_r23 [1437, 867, 871, 1441] (by decide +kernel) (by decide +kernel) w h).1
set_option maxRecDepth 20000 in
theorem wsL_law0_r24_in : ∀ w ∈ wsL_law0_r24, w ∈ lw_tbl := fun w h => (goodIn_p wsL_law0_r24 [878, 1445, 261, 265, 1449, 269] (by decide +kernel) (by decide +kernel) w h).1
set_option maxRecDepth 20000 in
theorem wsL_law0_r25_in : ∀ w ∈ wsL_law0_r25, w ∈ lw_tbl := fun w h => (goodIn_p wsL_law0_r25 [273, 1453, 285, 289, 1457] (by decide +kernel) (by decide +kernel) w h).1
set_option maxRecDepth 20000 in
theorem wsL_law0_r26_in : ∀ w ∈ wsL_law0_r26, w ∈ lw_tbl := fun w h => (goodIn_p wsL_law0_r26 [885, 1461, 892, 896, 901] (by decide +kernel) (by decide +kernel) w h).1
set_option maxRecDepth 20000 in
theorem wsL_law0_r27_in : ∀ w ∈ wsL_law0_r27, w ∈ lw_tbl := fun w h => (goodIn_p wsL_law0_r27 [1465, 909, 913, 917, 921] (by decide +kernel) (by decide +kernel) w h).1
set_option maxRecDepth 20000 in
theorem wsL_law0_r28_in : ∀ w ∈ wsL_law0_r28, w ∈ lw_tbl := fun w h => (goodIn_p wsL_law0_r28 [1469, 1473, 929, 933, 1477] (by decide +kernel) (by decide +kernel) w h).1
set_option maxRecDepth 20000 in
theorem wsL_law0_r29_in : ∀ w ∈ wsL_law0_r29, w ∈ lw_tbl := fun w h => (goodIn_p wsL_law0_r29 [293, 297, 1481, 376, 380, 384] (by decide +kernel) (by decide +kernel) w h).1
set_option maxRecDepth 20000 in
theorem wsL_law0_r30_in : ∀ w ∈ wsL_law0_r30, w ∈ lw_tbl := fun w h => (goodIn_p wsL_law0_r30 [388, 392, 407, 1485, 1489] (by decide +kernel) (by decide +kernel) w h).1
set_option maxRecDepth 20000 in
theorem wsL_law0_r31_in : ∀ w ∈ wsL_law0_r31, w ∈ lw_tbl := fun w h => (goodIn_p wsL_law0_r31 [1493, 940, 1497, 1501] (by decide +kernel) (by decide +kernel) w h).1
set_option maxRecDepth 20000 in
theorem wsL_law0_r32_in : ∀ w ∈ wsL_law0_r32, w ∈ lw_tbl := fun w h => (goodIn_p wsL_law0_r32 [948, 952, 957, 418, 1505] (by decide +kernel) (by decide +kernel) w h).1
set_option maxRecDepth 20000 in
theorem wsL_law0_r33_in : ∀ w ∈ wsL_law0_r33, w ∈ lw_tbl := fun w h => (goodIn_p wsL_law0_r33 [414, 422, 1510, 426, 1514] (by decide +kernel) (by decide +kernel) w h).1
set_option maxRecDepth 20000 in
theorem wsL_law0_r34_in : ∀ w ∈ wsL_law0_r34, w ∈ lw_tbl := fun w h => (goodIn_p wsL_law0_r34 [965, 972, 976, 980, 986] (by decide +kernel) (by decide +kernel) w h).1
set_option maxRecDepth 20000 in
theorem wsL_law0_r35_in : ∀ w ∈ wsL_law0_r35, w ∈ lw_tbl := fun w h => (goodIn_p wsL_law0_r35 [990, 993, 996, 1001, 1004, 1007, 1010] (by decide +kernel) (by decide +kernel) w h).1
set_option maxRecDepth 20000 in
theorem wsL_law0_r36_in : ∀ w ∈ wsL_law0_r36, w ∈ lw_tbl := fun w h => (goodIn_p wsL_law0_r36 [1014, 1518, 1521, 430, 434] (by decide +kernel) (by decide +kernel) w h).1
set_option maxRecDepth 20000 in
theorem wsL_law0_r37_in : ∀ w ∈ wsL_law0_r37, w ∈ lw_tbl := fun w h => (goodIn_p wsL_law0_r37 [438, 446, 451, 455] (by decide +kernel) (by decide +kernel) w h).1
set_option maxRecDepth 20000 in
theorem wsL_law0_r38_in : ∀ w ∈ wsL_law0_r38, w ∈ lw_tbl := fun w h => (goodIn_p wsL_law0_r38 [459, 462, 466, 470, 474, 478] (by decide +kernel) (by decide +kernel) w h).1
