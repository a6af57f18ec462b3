set_option maxRecDepth 20000 in
theorem wsL_law0_r39_in : ∀ w ∈ wsL_law0_r39, w ∈ lw_tbl := fun w h => (goodIn_p wsL_law0_r39 [482, 487, 491, 496, 500, 504] (by decide +kernel) (by decide +kernel) w h).1
set_option maxRecDepth 20000 in
theorem wsL_law0_r40_in : ∀ w ∈ wsL_law0_r40, w ∈ lw_tbl := fun w h => (goodIn_p wsL_law0_r40 [508, 512, 516, 520, 531] (by decide +kernel) (by decide +kernel) w h).1
set_option maxRecDepth 20000 in
theorem wsL_law0_r41_in : ∀ w ∈ wsL_law0_r41, w ∈ lw_tbl := fun w h => (goodIn_p wsL_law0_r41 [535, 539, 543, 547, 551, 1530] (by decide +kernel) (by decide +kernel) w h).1
set_option maxRecDepth 20000 in
theorem wsL_law0_r42_in : ∀ w ∈ wsL_law0_r42, w ∈ lw_tbl := fun w h => (goodIn_p wsL_law0_r42 [1534, 1538, 1542, 1546, 1550] (by decide +kernel) (by decide +kernel) w h).1
set_option maxRecDepth 20000 in
theorem wsL_law0_r43_in : ∀ w ∈ wsL_law0_r43, w ∈ lw_tbl := fun w h => (goodIn_p wsL_law0_r43 [1554, 1581, 1562, 1566, 1570, 1574] (by decide +kernel) (by decide +kernel) w h).1
set_option maxRecDepth 20000 in
theorem wsL_law0_r44_in : ∀ w ∈ wsL_law0_r44, w ∈ lw_tbl := fun w h => (goodIn_p wsL_law0_r44 [1577, 1558, 555, 559, 1585] (by decide +kernel) (by decide +kernel) w h).1
set_option maxRecDepth 20000 in
theorem wsL_law0_r45_in : ∀ w ∈ wsL_law0_r45, w ∈ lw_tbl := fun w h => (goodIn_p wsL_law0_r45 [1027, 1032, 1036, 1589, 1043, 1047] (by decide +kernel) (by decide +kernel) w h).1
set_option maxRecDepth 20000 in
theorem wsL_law0_r46_in : ∀ w ∈ wsL_law0_r46, w ∈ lw_tbl := fun w h => (goodIn_p wsL_law0_r46 [1051, 1593, 1059] (by decide +kernel) (by decide +kernel) w h).1
set_option maxRecDepth 20000 in
theorem wsL_law0_r47_in : ∀ w ∈ wsL_law0_r47, w ∈ lw_tbl := fun w h => (goodIn_p wsL_law0_r47 [1068, 1072, 1092, 1096, 1100, 1104] (by decide +kernel) (by decide +kernel) w h).1
set_option maxRecDepth 20000 in
theorem wsL_law0_r48_in : ∀ w ∈ wsL_law0_r48, w ∈ lw_tbl := fun w h => (goodIn_p wsL_law0_r48 [1109, 1127, 1135] (by decide +kernel) (by decide +kernel) w h).1
set_option maxRecDepth 20000 in
theorem wsL_law0_r49_in : ∀ w ∈ wsL_law0_r49, w ∈ lw_tbl := fun w h => (goodIn_p wsL_law0_r49 [1598, 1152, 1602] (by decide +kernel) (by decide +kernel) w h).1
set_option maxRecDepth 20000 in
theorem wsL_law0_r50_in : ∀ w ∈ wsL_law0_r50, w ∈ lw_tbl := fun w h => (goodIn_p wsL_law0_r50 [1161, 1606, 1171, 1175] (by decide +kernel) (by decide +kernel) w h).1
set_option maxRecDepth 20000 in
theorem wsL_law0_r51_in : ∀ w ∈ wsL_law0_r51, w ∈ lw_tbl := fun w h => (goodIn_p wsL_law0_r51 [1179, 1183, 1186, 1192, 1197, 1201] (by decide +kernel) (by decide +kernel) w h).1
set_option maxRecDepth 20000 in
theorem wsL_law0_r52_in : ∀ w ∈ wsL_law0_r52, w ∈ lw_tbl := fun w h => (goodIn_p wsL_law0_r52 [1206, 1210, 1214, 1219, 1610] (by decide +kernel) (by decide +kernel) w h).1
set_option maxRecDepth 20000 in
theorem wsL_law0_r53_in : ∀ w ∈ wsL_law0_r53, w ∈ lw_tbl := fun w h => (goodIn_p wsL_law0_r53 [1614, 1618, 1622, 1626, 1630, 1634] (by decide +kernel) (by decide +kernel) w h).1
set_option maxRecDepth 20000 in
theorem wsL_law0_r54_in : ∀ w ∈ wsL_law0_r54, w ∈ lw_tbl := fun w h => (goodIn_p wsL_law0_r54 [1638, 563, 567, 1642, 572, 1646] (by decide +kernel) (by decide +kernel) w h).1
set_option maxRecDepth 20000 in
theorem wsL_law0_r55_in : ∀ w ∈ wsL_law0_r55, w ∈ lw_tbl := fun w h => (goodIn_p wsL_law0_r55 [587, 1651] (by decide +kernel) (by decide +kernel) w h).1
