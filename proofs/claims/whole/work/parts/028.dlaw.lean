set_option maxRecDepth 20000 in
theorem ggL_law_X7_init : GoodIn wsL_law wsX7_init := goodIn_r _ [10, 11, 12, 13, 14, 15, 16, 17, 18, 19, 20, 21, 22, 23, 24, 25, 26, 27, 28, 29, 30, 31, 32, 33, 34, 35, 36, 37, 38, 39, 40, 41, 42, 43, 44, 45, 46, 47, 48, 49, 50, 51, 52, 53, 54, 55, 56, 57, 58, 59, 60, 61, 62, 63, 64, 65, 66, 67, 68, 69, 70, 71, 72, 73, 74, 75, 76, 77, 78, 79, 80, 81, 82, 83, 84, 85, 86, 87, 88, 89, 90, 91, 1306, 1307, 1308, 1309, 1310, 1311, 1312, 1313, 1333, 1334, 1335, 1336, 1337, 1338, 1339, 1340, 1341, 1342, 1343, 1344, 1345, 1346, 1347, 1348, 1349, 1350, 1351, 1352, 1353, 1354, 1355, 1356, 1357, 1358] (by decide +kernel) (by decide +kernel)
set_option maxRecDepth 20000 in
theorem gL_law_X7_init : GoodIn wsL_law (wsX7_init) := ggL_law_X7_init
set_option maxRecDepth 20000 in
theorem ggL_law_X8_init : GoodIn wsL_law wsX8_init := goodIn_r _ [94, 95, 12, 13, 96, 79, 97, 98, 99, 100, 101, 77, 102, 103, 104, 105, 106, 107, 1314, 1315, 1316, 1317, 1318, 1319, 1320, 1321, 1322, 1323, 1324, 1325, 1326, 1327, 1328, 1329, 1330, 1331, 1332] (by decide +kernel) (by decide +kernel)
set_option maxRecDepth 20000 in
theorem gL_law_X8_init : GoodIn wsL_law (wsX8_init) := ggL_law_X8_init
set_option maxRecDepth 20000 in
theorem ggL_law_L_add : GoodIn wsL_law wsL_add := goodIn_ca (goodIn_ca (goodIn_r _ [111, 112, 113, 114, 115, 2, 116, 117, 118, 119, 120, 121, 122, 15, 123, 124, 125, 126, 127, 128, 129, 130, 131, 132, 133, 19, 134, 135, 136, 137, 138, 44, 45, 139, 140, 141, 142, 1306, 1307, 1308, 1309, 1310, 1311, 1312, 1313, 1333, 1334] (by decide +kernel) (by decide +kernel)) (goodIn_sub (fun _ h => List.mem_append_left _ (List.mem_append_left _ (List.mem_append_left _ (List.mem_append_left _ (List.mem_append_left _ (List.mem_append_left _ (List.mem_append_left _ (List.mem_append_left _ (List.mem_append_right _ h))))))))) (by decide +kernel))) (goodIn_sub (fun _ h => List.mem_append_left _ (List.mem_append_left _ (List.mem_append_left _ (List.mem_append_left _ (List.mem_append_left _ (List.mem_append_left _ (List.mem_append_left _ (List.mem_append_right _ h)))))))) (by decide +kernel))
set_option maxRecDepth 20000 in
theorem gL_law_L_add : GoodIn wsL_law (va_wsS RL 138 yL_add wsL_add) := goodIn_app (goodIn_of _ (by decide +kernel)) ggL_law_L_add
set_option maxRecDepth 20000 in
theorem ggL_law_X8_add : GoodIn wsL_law wsX8_add := goodIn_r _ [146, 147, 148, 5, 149, 150, 151, 152, 153, 154, 155, 156, 157, 158, 159, 160, 161, 162, 163, 164, 97, 165, 166, 167, 1314, 1315, 1316, 1317, 1318, 1319, 1320, 1321, 1322, 1323, 1324, 1325, 1326, 1327, 1328, 1329, 1330, 1331, 1332] (by decide +kernel) (by decide +kernel)
set_option maxRecDepth 20000 in
theorem gL_law_X8_add : GoodIn wsL_law (wsV RL 143 RX8 yX8_add wsX8_add) := goodIn_app (goodIn_of _ (by decide +kernel)) ggL_law_X8_add
set_option maxRecDepth 20000 in
theorem ggL_law_X8_thrown : GoodIn wsL_law wsX8_thrown := goodIn_r _ [171, 160, 1314, 1315, 1316, 1317, 1318, 1319, 1320, 1321, 1322, 1323, 1324, 1325, 1326, 1327, 1328, 1329, 1330, 1331, 1332] (by decide +kernel) (by decide +kernel)
set_option maxRecDepth 20000 in
theorem gL_law_X8_thrown : GoodIn wsL_law (wsV RL 144 RX8 yX8_thrown wsX8_thrown) := goodIn_app (goodIn_of _ (by decide +kernel)) ggL_law_X8_thrown
set_option maxRecDepth 20000 in
theorem ggL_law_L_remove : GoodIn wsL_law wsL_remove := goodIn_ca (goodIn_ca (goodIn_r _ [174, 112, 175, 176, 177, 2, 178, 117, 118, 119, 120, 121, 122, 15, 123, 124, 125, 126, 127, 128, 129, 130, 179, 180, 181, 19, 182, 135, 136, 137, 138, 44, 45, 139, 140, 141, 142, 1306, 1307, 1308, 1309, 1310, 1311, 1312, 1313, 1333, 1334] (by decide +kernel) (by decide +kernel)) (goodIn_sub (fun _ h => List.mem_append_left _ (List.mem_append_left _ (List.mem_append_left _ (List.mem_append_left _ (List.mem_append_left _ (List.mem_append_left _ (List.mem_append_left _ (List.mem_append_left _ (List.mem_append_right _ h))))))))) (by decide +kernel))) (goodIn_sub (fun _ h => List.mem_append_left _ (List.mem_append_left _ (List.mem_append_left _ (List.mem_append_left _ (List.mem_append_left _ (List.mem_append_left _ (List.mem_append_left _ (List.mem_append_right _ h)))))))) (by decide +kernel))
set_option maxRecDepth 20000 in
theorem gL_law_L_remove : GoodIn wsL_law (va_wsS RL 147 yL_remove wsL_remove) := goodIn_app (goodIn_of _ (by decide +kernel)) ggL_law_L_remove
set_option maxRecDepth 20000 in
theorem ggL_law_X8_remove : GoodIn wsL_law wsX8_remove := goodIn_r _ [186, 147, 148, 5, 149, 150, 151, 152, 153, 154, 155, 156, 157, 158, 159, 160, 161, 162, 163, 164, 97, 165, 166, 167, 1314, 1315, 1316, 1317, 1318, 1319, 1320, 1321, 1322, 1323, 1324, 1325, 1326, 1327, 1328, 1329, 1330, 1331, 1332] (by decide +kernel) (by decide +kernel)
set_option maxRecDepth 20000 in
theorem gL_law_X8_remove : GoodIn wsL_law (wsV RL 149 RX8 yX8_remove wsX8_remove) := goodIn_app (goodIn_of _ (by decide +kernel)) ggL_law_X8_remove
set_option maxRecDepth 20000 in
theorem ggL_law_L_has : GoodIn wsL_law wsL_has := goodIn_ca (goodIn_ca (goodIn_r _ [189, 112, 190, 191, 192, 2, 193, 117, 118, 119, 120, 121, 122, 15, 123, 124, 125, 126, 127, 128, 129, 130, 194, 136, 137, 19, 138, 44, 45, 1306, 1307, 1308, 1309, 1310, 1311, 1312, 1313, 1333, 1334] (by decide +kernel) (by decide +kernel)) (goodIn_sub (fun _ h => List.mem_append_left _ (List.mem_append_left _ (List.mem_append_left _ (List.mem_append_left _ (List.mem_append_left _ (List.mem_append_left _ (List.mem_append_left _ (List.mem_append_left _ (List.mem_append_right _ h))))))))) (by decide +kernel))) (goodIn_sub (fun _ h => List.mem_append_left _ (List.mem_append_left _ (List.mem_append_left _ (List.mem_append_left _ (List.mem_append_left _ (List.mem_append_left _ (List.mem_append_left _ (List.mem_append_right _ h)))))))) (by decide +kernel))
set_option maxRecDepth 20000 in
theorem gL_law_L_has : GoodIn wsL_law (va_wsS RL 150 yL_has wsL_has) := goodIn_app (goodIn_of _ (by decide +kernel)) ggL_law_L_has
set_option maxRecDepth 20000 in
theorem ggL_law_X8_has : GoodIn wsL_law wsX8_has := goodIn_r _ [198, 97, 147, 148, 5, 149, 150, 151, 152, 153, 154, 155, 156, 157, 158, 159, 160, 165, 166, 167, 1314, 1315, 1316, 1317, 1318, 1319, 1320, 1321, 1322, 1323, 1324, 1325, 1326, 1327, 1328, 1329, 1330, 1331, 1332] (by decide +kernel) (by decide +kernel)
set_option maxRecDepth 20000 in
theorem gL_law_X8_has : GoodIn wsL_law (wsV RL 152 RX8 yX8_has wsX8_has) := goodIn_app (goodIn_of _ (by decide +kernel)) ggL_law_X8_has
set_option maxRecDepth 20000 in
theorem ggL_law_L_size : GoodIn wsL_law wsL_size := goodIn_ca (goodIn_r _ [201, 112, 202, 203, 204, 2, 205, 117, 118, 119, 120, 121, 122, 15, 206, 207, 208, 19, 209, 44, 45, 210, 211, 212, 213, 214, 215, 216, 1306, 1307, 1308, 1309, 1310, 1311, 1312, 1313, 1333, 1334] (by decide +kernel) (by decide +kernel)) (goodIn_sub (fun _ h => List.mem_append_left _ (List.mem_append_left _ (List.mem_append_left _ (List.mem_append_left _ (List.mem_append_left _ (List.mem_append_left _ (List.mem_append_left _ (List.mem_append_left _ (List.mem_append_right _ h))))))))) (by decide +kernel))
set_option maxRecDepth 20000 in
theorem gL_law_L_size : GoodIn wsL_law (va_wsS RL 153 yL_size wsL_size) := goodIn_app (goodIn_of _ (by decide +kernel)) ggL_law_L_size
set_option maxRecDepth 20000 in
theorem ggL_law_X8_size : GoodIn wsL_law wsX8_size := goodIn_r _ [220, 97, 147, 148, 5, 149, 150, 151, 152, 156, 157, 158, 159, 160, 221, 222, 223, 1314, 1315, 1316, 1317, 1318, 1319, 1320, 1321, 1322, 1323, 1324, 1325, 1326, 1327, 1328, 1329, 1330, 1331, 1332] (by decide +kernel) (by decide +kernel)
set_option maxRecDepth 20000 in
theorem gL_law_X8_size : GoodIn wsL_law (wsV RL 156 RX8 yX8_size wsX8_size) := goodIn_app (goodIn_of _ (by decide +kernel)) ggL_law_X8_size
set_option maxRecDepth 20000 in
theorem ggL_law_L_sum : GoodIn wsL_law wsL_sum := goodIn_ca (goodIn_r _ [226, 112, 227, 228, 229, 2, 230, 117, 118, 119, 120, 121, 122, 15, 231, 232, 233, 19, 234, 135, 136, 137, 138, 44, 45, 1306, 1307, 1308, 1309, 1310, 1311, 1312, 1313, 1333, 1334] (by decide +kernel) (by decide +kernel)) (goodIn_sub (fun _ h => List.mem_append_left _ (List.mem_append_left _ (List.mem_append_left _ (List.mem_append_left _ (List.mem_append_left _ (List.mem_append_left _ (List.mem_append_left _ (List.mem_append_left _ (List.mem_append_right _ h))))))))) (by decide +kernel))
set_option maxRecDepth 20000 in
theorem gL_law_L_sum : GoodIn wsL_law (va_wsS RL 157 yL_sum wsL_sum) := goodIn_app (goodIn_of _ (by decide +kernel)) ggL_law_L_sum
set_option maxRecDepth 20000 in
theorem ggL_law_X8_sum : GoodIn wsL_law wsX8_sum := goodIn_r _ [238, 97, 147, 148, 5, 149, 150, 151, 152, 156, 157, 158, 159, 160, 239, 240, 241, 242, 243, 244, 1314, 1315, 1316, 1317, 1318, 1319, 1320, 1321, 1322, 1323, 1324, 1325, 1326, 1327, 1328, 1329, 1330, 1331, 1332] (by decide +kernel) (by decide +kernel)
set_option maxRecDepth 20000 in
theorem gL_law_X8_sum : GoodIn wsL_law (wsV RL 159 RX8 yX8_sum wsX8_sum) := goodIn_app (goodIn_of _ (by decide +kernel)) ggL_law_X8_sum
set_option maxRecDepth 20000 in
theorem ggL_law_L_clear : GoodIn wsL_law wsL_clear := goodIn_ca (goodIn_r _ [247, 112, 248, 249, 250, 2, 251, 117, 118, 119, 120, 121, 122, 15, 206, 207, 208, 19, 209, 44, 45, 210, 211, 212, 213, 214, 215, 216, 252, 253, 254, 255, 1306, 1307, 1308, 1309, 1310, 1311, 1312, 1313, 1333, 1334] (by decide +kernel) (by decide +kernel)) (goodIn_sub (fun _ h => List.mem_append_left _ (List.mem_append_left _ (List.mem_append_left _ (List.mem_append_left _ (List.mem_append_left _ (List.mem_append_left _ (List.mem_append_left _ (List.mem_append_left _ (List.mem_append_right _ h))))))))) (by decide +kernel))
set_option maxRecDepth 20000 in
theorem gL_law_L_clear : GoodIn wsL_law (va_wsS RL 160 yL_clear wsL_clear) := goodIn_app (goodIn_of _ (by decide +kernel)) ggL_law_L_clear
set_option maxRecDepth 20000 in
theorem ggL_law_X8_clear : GoodIn wsL_law wsX8_clear := goodIn_r _ [259, 97, 147, 148, 5, 149, 150, 151, 152, 156, 157, 158, 159, 160, 221, 222, 223, 260, 261, 262, 1314, 1315, 1316, 1317, 1318, 1319, 1320, 1321, 1322, 1323, 1324, 1325, 1326, 1327, 1328, 1329, 1330, 1331, 1332] (by decide +kernel) (by decide +kernel)
set_option maxRecDepth 20000 in
theorem gL_law_X8_clear : GoodIn wsL_law (wsV RL 162 RX8 yX8_clear wsX8_clear) := goodIn_app (goodIn_of _ (by decide +kernel)) ggL_law_X8_clear
set_option maxRecDepth 20000 in
theorem ggL_law_L_fill : GoodIn wsL_law wsL_fill := goodIn_ca (goodIn_ca (goodIn_r _ [265, 112, 266, 267, 268, 2, 269, 117, 118, 119, 120, 121, 122, 15, 270, 271, 272, 126, 127, 206, 207, 208, 19, 209, 44, 45, 210, 211, 212, 213, 214, 215, 216, 128, 129, 130, 131, 132, 133, 134, 135, 136, 137, 138, 139, 140, 141, 142, 1306, 1307, 1308, 1309, 1310, 1311, 1312, 1313, 1333, 1334] (by decide +kernel) (by decide +kernel)) (goodIn_sub (fun _ h => List.mem_append_left _ (List.mem_append_left _ (List.mem_append_left _ (List.mem_append_left _ (List.mem_append_left _ (List.mem_append_left _ (List.mem_append_left _ (List.mem_append_left _ (List.mem_append_right _ h))))))))) (by decide +kernel))) (goodIn_sub (fun _ h => List.mem_append_left _ (List.mem_append_left _ (List.mem_append_left _ (List.mem_append_left _ (List.mem_append_left _ (List.mem_append_left _ (List.mem_append_left _ (List.mem_append_right _ h)))))))) (by decide +kernel))
set_option maxRecDepth 20000 in
theorem gL_law_L_fill : GoodIn wsL_law (va_wsS RL 163 yL_fill wsL_fill) := goodIn_app (goodIn_of _ (by decide +kernel)) ggL_law_L_fill
set_option maxRecDepth 20000 in
theorem ggL_law_X8_fill : GoodIn wsL_law wsX8_fill := goodIn_r _ [276, 147, 148, 5, 149, 150, 151, 152, 156, 157, 158, 159, 160, 161, 162, 163, 164, 97, 165, 166, 167, 1314, 1315, 1316, 1317, 1318, 1319, 1320, 1321, 1322, 1323, 1324, 1325, 1326, 1327, 1328, 1329, 1330, 1331, 1332] (by decide +kernel) (by decide +kernel)
set_option maxRecDepth 20000 in
theorem gL_law_X8_fill : GoodIn wsL_law (wsV RL 166 RX8 yX8_fill wsX8_fill) := goodIn_app (goodIn_of _ (by decide +kernel)) ggL_law_X8_fill
set_option maxRecDepth 20000 in
theorem ggL_law_L_memberAt : GoodIn wsL_law wsL_memberAt := goodIn_ca (goodIn_ca (goodIn_r _ [279, 112, 280, 281, 282, 2, 283, 284, 285, 117, 118, 119, 120, 121, 122, 15, 286, 287, 288, 19, 289, 135, 136, 137, 138, 44, 45, 290, 291, 292, 1306, 1307, 1308, 1309, 1310, 1311, 1312, 1313, 1333, 1334] (by decide +kernel) (by decide +kernel)) (goodIn_sub (fun _ h => List.mem_append_left _ (List.mem_append_left _ (List.mem_append_left _ (List.mem_append_left _ (List.mem_append_left _ (List.mem_append_left _ (List.mem_append_right _ h))))))) (by decide +kernel))) (goodIn_sub (fun _ h => List.mem_append_left _ (List.mem_append_left _ (List.mem_append_left _ (List.mem_append_left _ (List.mem_append_left _ (List.mem_append_left _ (List.mem_append_left _ (List.mem_append_left _ (List.mem_append_right _ h))))))))) (by decide +kernel))
set_option maxRecDepth 20000 in
theorem gL_law_L_memberAt : GoodIn wsL_law (va_wsS RL 167 yL_memberAt wsL_memberAt) := goodIn_app (goodIn_of _ (by decide +kernel)) ggL_law_L_memberAt
set_option maxRecDepth 20000 in
theorem ggL_law_X8_memberAt : GoodIn wsL_law wsX8_memberAt := goodIn_r _ [296, 97, 147, 148, 5, 149, 150, 151, 152, 297, 298, 299, 156, 157, 158, 159, 160, 242, 243, 244, 1314, 1315, 1316, 1317, 1318, 1319, 1320, 1321, 1322, 1323, 1324, 1325, 1326, 1327, 1328, 1329, 1330, 1331, 1332] (by decide +kernel) (by decide +kernel)
set_option maxRecDepth 20000 in
theorem gL_law_X8_memberAt : GoodIn wsL_law (wsV RL 169 RX8 yX8_memberAt wsX8_memberAt) := goodIn_app (goodIn_of _ (by decide +kernel)) ggL_law_X8_memberAt
set_option maxRecDepth 20000 in
theorem ggL_law_L_least : GoodIn wsL_law wsL_least := goodIn_ca (goodIn_ca (goodIn_r _ [302, 112, 303, 304, 305, 2, 306, 117, 118, 119, 120, 121, 122, 15, 307, 308, 309, 19, 310, 135, 136, 137, 138, 44, 45, 311, 312, 313, 284, 285, 1306, 1307, 1308, 1309, 1310, 1311, 1312, 1313, 1333, 1334] (by decide +kernel) (by decide +kernel)) (goodIn_sub (fun _ h => List.mem_append_left _ (List.mem_append_left _ (List.mem_append_left _ (List.mem_append_left _ (List.mem_append_left _ (List.mem_append_left _ (List.mem_append_left _ (List.mem_append_left _ (List.mem_append_right _ h))))))))) (by decide +kernel))) (goodIn_sub (fun _ h => List.mem_append_left _ (List.mem_append_left _ (List.mem_append_left _ (List.mem_append_left _ (List.mem_append_left _ (List.mem_append_left _ (List.mem_append_right _ h))))))) (by decide +kernel))
set_option maxRecDepth 20000 in
theorem gL_law_L_least : GoodIn wsL_law (va_wsS RL 170 yL_least wsL_least) := goodIn_app (goodIn_of _ (by decide +kernel)) ggL_law_L_least
set_option maxRecDepth 20000 in
theorem ggL_law_X8_least : GoodIn wsL_law wsX8_least := goodIn_r _ [317, 97, 147, 148, 5, 149, 150, 151, 152, 156, 157, 158, 159, 160, 242, 243, 244, 1314, 1315, 1316, 1317, 1318, 1319, 1320, 1321, 1322, 1323, 1324, 1325, 1326, 1327, 1328, 1329, 1330, 1331, 1332] (by decide +kernel) (by decide +kernel)
set_option maxRecDepth 20000 in
theorem gL_law_X8_least : GoodIn wsL_law (wsV RL 172 RX8 yX8_least wsX8_least) := goodIn_app (goodIn_of _ (by decide +kernel)) ggL_law_X8_least
set_option maxRecDepth 20000 in
theorem ggL_law_L_greatest : GoodIn wsL_law wsL_greatest := goodIn_ca (goodIn_ca (goodIn_r _ [320, 112, 321, 322, 323, 2, 324, 117, 118, 119, 120, 121, 122, 15, 325, 326, 327, 19, 328, 135, 136, 137, 138, 44, 45, 311, 312, 313, 284, 285, 1306, 1307, 1308, 1309, 1310, 1311, 1312, 1313, 1333, 1334] (by decide +kernel) (by decide +kernel)) (goodIn_sub (fun _ h => List.mem_append_left _ (List.mem_append_left _ (List.mem_append_left _ (List.mem_append_left _ (List.mem_append_left _ (List.mem_append_left _ (List.mem_append_left _ (List.mem_append_left _ (List.mem_append_right _ h))))))))) (by decide +kernel))) (goodIn_sub (fun _ h => List.mem_append_left _ (List.mem_append_left _ (List.mem_append_left _ (List.mem_append_left _ (List.mem_append_left _ (List.mem_append_left _ (List.mem_append_right _ h))))))) (by decide +kernel))
set_option maxRecDepth 20000 in
theorem gL_law_L_greatest : GoodIn wsL_law (va_wsS RL 173 yL_greatest wsL_greatest) := goodIn_app (goodIn_of _ (by decide +kernel)) ggL_law_L_greatest
set_option maxRecDepth 20000 in
theorem ggL_law_X8_greatest : GoodIn wsL_law wsX8_greatest := goodIn_r _ [332, 97, 147, 148, 5, 149, 150, 151, 152, 156, 157, 158, 159, 160, 242, 243, 244, 1314, 1315, 1316, 1317, 1318, 1319, 1320, 1321, 1322, 1323, 1324, 1325, 1326, 1327, 1328, 1329, 1330, 1331, 1332] (by decide +kernel) (by decide +kernel)
set_option maxRecDepth 20000 in
theorem gL_law_X8_greatest : GoodIn wsL_law (wsV RL 175 RX8 yX8_greatest wsX8_greatest) := goodIn_app (goodIn_of _ (by decide +kernel)) ggL_law_X8_greatest
set_option maxRecDepth 20000 in
theorem ggL_law_L_unite : GoodIn wsL_law wsL_unite := goodIn_ca (goodIn_ca (goodIn_r _ [335, 112, 336, 337, 338, 2, 339, 117, 118, 119, 120, 121, 122, 15, 340, 341, 342, 19, 343, 344, 127, 44, 45, 345, 1306, 1307, 1308, 1309, 1310, 1311, 1312, 1313, 1333, 1334] (by decide +kernel) (by decide +kernel)) (goodIn_sub (fun _ h => List.mem_append_left _ (List.mem_append_left _ (List.mem_append_left _ (List.mem_append_left _ (List.mem_append_left _ (List.mem_append_left _ (List.mem_append_left _ (List.mem_append_left _ (List.mem_append_right _ h))))))))) (by decide +kernel))) (goodIn_sub (fun _ h => List.mem_append_left _ (List.mem_append_left _ (List.mem_append_left _ (List.mem_append_left _ (List.mem_append_left _ (List.mem_append_right _ h)))))) (by decide +kernel))
set_option maxRecDepth 20000 in
theorem gL_law_L_unite : GoodIn wsL_law (va_wsS RL 176 yL_unite wsL_unite) := goodIn_app (goodIn_of _ (by decide +kernel)) ggL_law_L_unite
set_option maxRecDepth 20000 in
theorem ggL_law_X8_unite : GoodIn wsL_law wsX8_unite := goodIn_r _ [349, 350, 351, 352, 5, 353, 97, 98, 147, 148, 149, 150, 151, 152, 156, 157, 158, 159, 160, 354, 355, 356, 260, 261, 262, 357, 358, 359, 360, 361, 362, 1314, 1315, 1316, 1317, 1318, 1319, 1320, 1321, 1322, 1323, 1324, 1325, 1326, 1327, 1328, 1329, 1330, 1331, 1332] (by decide +kernel) (by decide +kernel)
set_option maxRecDepth 20000 in
theorem gL_law_X8_unite : GoodIn wsL_law (wsV RL 178 RX8 yX8_unite wsX8_unite) := goodIn_app (goodIn_of _ (by decide +kernel)) ggL_law_X8_unite
set_option maxRecDepth 20000 in
theorem ggL_law_L_meet : GoodIn wsL_law wsL_meet := goodIn_ca (goodIn_ca (goodIn_r _ [365, 112, 366, 367, 368, 2, 369, 117, 118, 119, 120, 121, 122, 15, 340, 341, 342, 19, 343, 344, 127, 44, 45, 345, 1306, 1307, 1308, 1309, 1310, 1311, 1312, 1313, 1333, 1334] (by decide +kernel) (by decide +kernel)) (goodIn_sub (fun _ h => List.mem_append_left _ (List.mem_append_left _ (List.mem_append_left _ (List.mem_append_left _ (List.mem_append_left _ (List.mem_append_left _ (List.mem_append_left _ (List.mem_append_left _ (List.mem_append_right _ h))))))))) (by decide +kernel))) (goodIn_sub (fun _ h => List.mem_append_left _ (List.mem_append_left _ (List.mem_append_left _ (List.mem_append_left _ (List.mem_append_left _ (List.mem_append_right _ h)))))) (by decide +kernel))
set_option maxRecDepth 20000 in
theorem gL_law_L_meet : GoodIn wsL_law (va_wsS RL 179 yL_meet wsL_meet) := goodIn_app (goodIn_of _ (by decide +kernel)) ggL_law_L_meet
set_option maxRecDepth 20000 in
theorem ggL_law_X8_meet : GoodIn wsL_law wsX8_meet := goodIn_r _ [373, 350, 351, 352, 5, 353, 97, 98, 147, 148, 149, 150, 151, 152, 156, 157, 158, 159, 160, 354, 355, 356, 260, 261, 262, 357, 358, 359, 360, 361, 362, 1314, 1315, 1316, 1317, 1318, 1319, 1320, 1321, 1322, 1323, 1324, 1325, 1326, 1327, 1328, 1329, 1330, 1331, 1332] (by decide +kernel) (by decide +kernel)
set_option maxRecDepth 20000 in
theorem gL_law_X8_meet : GoodIn wsL_law (wsV RL 181 RX8 yX8_meet wsX8_meet) := goodIn_app (goodIn_of _ (by decide +kernel)) ggL_law_X8_meet
set_option maxRecDepth 20000 in
theorem ggL_law_L_without : GoodIn wsL_law wsL_without := goodIn_ca (goodIn_ca (goodIn_r _ [376, 112, 377, 378, 379, 2, 380, 117, 118, 119, 120, 121, 122, 15, 340, 341, 342, 19, 343, 344, 127, 44, 45, 345, 1306, 1307, 1308, 1309, 1310, 1311, 1312, 1313, 1333, 1334] (by decide +kernel) (by decide +kernel)) (goodIn_sub (fun _ h => List.mem_append_left _ (List.mem_append_left _ (List.mem_append_left _ (List.mem_append_left _ (List.mem_append_left _ (List.mem_append_left _ (List.mem_append_left _ (List.mem_append_left _ (List.mem_append_right _ h))))))))) (by decide +kernel))) (goodIn_sub (fun _ h => List.mem_append_left _ (List.mem_append_left _ (List.mem_append_left _ (List.mem_append_left _ (List.mem_append_left _ (List.mem_append_right _ h)))))) (by decide +kernel))
set_option maxRecDepth 20000 in
theorem gL_law_L_without : GoodIn wsL_law (va_wsS RL 182 yL_without wsL_without) := goodIn_app (goodIn_of _ (by decide +kernel)) ggL_law_L_without
set_option maxRecDepth 20000 in
theorem ggL_law_X8_without : GoodIn wsL_law wsX8_without := goodIn_r _ [384, 350, 351, 352, 5, 353, 97, 98, 147, 148, 149, 150, 151, 152, 156, 157, 158, 159, 160, 354, 355, 356, 260, 261, 262, 357, 358, 359, 360, 361, 362, 1314, 1315, 1316, 1317, 1318, 1319, 1320, 1321, 1322, 1323, 1324, 1325, 1326, 1327, 1328, 1329, 1330, 1331, 1332] (by decide +kernel) (by decide +kernel)
set_option maxRecDepth 20000 in
theorem gL_law_X8_without : GoodIn wsL_law (wsV RL 184 RX8 yX8_without wsX8_without) := goodIn_app (goodIn_of _ (by decide +kernel)) ggL_law_X8_without
set_option maxRecDepth 20000 in
theorem ggL_law_L_copy : GoodIn wsL_law wsL_copy := goodIn_ca (goodIn_r _ [387, 112, 388, 389, 390, 2, 391, 117, 118, 119, 120, 121, 122, 15, 392, 393, 394, 19, 395, 44, 45, 206, 207, 208, 209, 210, 211, 212, 213, 214, 215, 216, 1306, 1307, 1308, 1309, 1310, 1311, 1312, 1313, 1333, 1334] (by decide +kernel) (by decide +kernel)) (goodIn_sub (fun _ h => List.mem_append_left _ (List.mem_append_left _ (List.mem_append_left _ (List.mem_append_left _ (List.mem_append_left _ (List.mem_append_left _ (List.mem_append_left _ (List.mem_append_left _ (List.mem_append_right _ h))))))))) (by decide +kernel))
set_option maxRecDepth 20000 in
theorem gL_law_L_copy : GoodIn wsL_law (va_wsS RL 185 yL_copy wsL_copy) := goodIn_app (goodIn_of _ (by decide +kernel)) ggL_law_L_copy
set_option maxRecDepth 20000 in
theorem ggL_law_X8_copy : GoodIn wsL_law wsX8_copy := goodIn_r _ [399, 97, 147, 148, 5, 149, 150, 151, 152, 156, 157, 158, 159, 160, 354, 355, 356, 221, 222, 223, 1314, 1315, 1316, 1317, 1318, 1319, 1320, 1321, 1322, 1323, 1324, 1325, 1326, 1327, 1328, 1329, 1330, 1331, 1332] (by decide +kernel) (by decide +kernel)
set_option maxRecDepth 20000 in
theorem gL_law_X8_copy : GoodIn wsL_law (wsV RL 187 RX8 yX8_copy wsX8_copy) := goodIn_app (goodIn_of _ (by decide +kernel)) ggL_law_X8_copy
set_option maxRecDepth 20000 in
theorem ggL_law_L_sieve : GoodIn wsL_law wsL_sieve := goodIn_ca (goodIn_ca (goodIn_r _ [402, 112, 403, 404, 405, 2, 406, 117, 118, 119, 120, 121, 122, 15, 270, 271, 272, 126, 127, 206, 207, 208, 19, 209, 44, 45, 210, 211, 212, 213, 214, 215, 216, 407, 408, 409, 410, 179, 180, 181, 182, 135, 136, 137, 138, 139, 140, 141, 142, 1306, 1307, 1308, 1309, 1310, 1311, 1312, 1313, 1333, 1334] (by decide +kernel) (by decide +kernel)) (goodIn_sub (fun _ h => List.mem_append_left _ (List.mem_append_left _ (List.mem_append_left _ (List.mem_append_left _ (List.mem_append_left _ (List.mem_append_left _ (List.mem_append_left _ (List.mem_append_left _ (List.mem_append_right _ h))))))))) (by decide +kernel))) (goodIn_sub (fun _ h => List.mem_append_left _ (List.mem_append_left _ (List.mem_append_left _ (List.mem_append_left _ (List.mem_append_left _ (List.mem_append_left _ (List.mem_append_left _ (List.mem_append_right _ h)))))))) (by decide +kernel))
set_option maxRecDepth 20000 in
theorem gL_law_L_sieve : GoodIn wsL_law (va_wsS RL 188 yL_sieve wsL_sieve) := goodIn_app (goodIn_of _ (by decide +kernel)) ggL_law_L_sieve
set_option maxRecDepth 20000 in
theorem ggL_law_X8_sieve : GoodIn wsL_law wsX8_sieve := goodIn_r _ [414, 147, 148, 5, 149, 150, 151, 152, 156, 157, 158, 159, 160, 161, 162, 163, 164, 97, 165, 166, 167, 1314, 1315, 1316, 1317, 1318, 1319, 1320, 1321, 1322, 1323, 1324, 1325, 1326, 1327, 1328, 1329, 1330, 1331, 1332] (by decide +kernel) (by decide +kernel)
set_option maxRecDepth 20000 in
theorem gL_law_X8_sieve : GoodIn wsL_law (wsV RL 191 RX8 yX8_sieve wsX8_sieve) := goodIn_app (goodIn_of _ (by decide +kernel)) ggL_law_X8_sieve
set_option maxRecDepth 20000 in
theorem ggL_law_L_isWithin : GoodIn wsL_law wsL_isWithin := goodIn_ca (goodIn_ca (goodIn_r _ [417, 112, 418, 419, 420, 2, 421, 117, 118, 119, 120, 121, 122, 15, 422, 423, 424, 19, 425, 344, 127, 44, 345, 45, 1306, 1307, 1308, 1309, 1310, 1311, 1312, 1313, 1333, 1334] (by decide +kernel) (by decide +kernel)) (goodIn_sub (fun _ h => List.mem_append_left _ (List.mem_append_left _ (List.mem_append_left _ (List.mem_append_left _ (List.mem_append_left _ (List.mem_append_left _ (List.mem_append_left _ (List.mem_append_left _ (List.mem_append_right _ h))))))))) (by decide +kernel))) (goodIn_sub (fun _ h => List.mem_append_left _ (List.mem_append_left _ (List.mem_append_left _ (List.mem_append_left _ (List.mem_append_left _ (List.mem_append_right _ h)))))) (by decide +kernel))
set_option maxRecDepth 20000 in
theorem gL_law_L_isWithin : GoodIn wsL_law (va_wsS RL 192 yL_isWithin wsL_isWithin) := goodIn_app (goodIn_of _ (by decide +kernel)) ggL_law_L_isWithin
set_option maxRecDepth 20000 in
theorem ggL_law_X8_isWithin : GoodIn wsL_law wsX8_isWithin := goodIn_r _ [429, 97, 147, 148, 5, 149, 150, 151, 152, 156, 157, 158, 159, 160, 430, 431, 432, 1314, 1315, 1316, 1317, 1318, 1319, 1320, 1321, 1322, 1323, 1324, 1325, 1326, 1327, 1328, 1329, 1330, 1331, 1332] (by decide +kernel) (by decide +kernel)
set_option maxRecDepth 20000 in
theorem gL_law_X8_isWithin : GoodIn wsL_law (wsV RL 194 RX8 yX8_isWithin wsX8_isWithin) := goodIn_app (goodIn_of _ (by decide +kernel)) ggL_law_X8_isWithin
set_option maxRecDepth 20000 in
theorem ggL_law_L_isApart : GoodIn wsL_law wsL_isApart := goodIn_ca (goodIn_r _ [435, 112, 436, 437, 438, 2, 439, 117, 118, 119, 120, 121, 122, 15, 440, 441, 442, 19, 443, 44, 45, 1306, 1307, 1308, 1309, 1310, 1311, 1312, 1313, 1333, 1334] (by decide +kernel) (by decide +kernel)) (goodIn_sub (fun _ h => List.mem_append_left _ (List.mem_append_left _ (List.mem_append_left _ (List.mem_append_left _ (List.mem_append_left _ (List.mem_append_left _ (List.mem_append_left _ (List.mem_append_left _ (List.mem_append_right _ h))))))))) (by decide +kernel))
set_option maxRecDepth 20000 in
theorem gL_law_L_isApart : GoodIn wsL_law (va_wsS RL 195 yL_isApart wsL_isApart) := goodIn_app (goodIn_of _ (by decide +kernel)) ggL_law_L_isApart
set_option maxRecDepth 20000 in
theorem ggL_law_X8_isApart : GoodIn wsL_law wsX8_isApart := goodIn_r _ [447, 97, 98, 147, 148, 5, 149, 150, 151, 152, 156, 157, 158, 159, 160, 260, 261, 262, 221, 222, 223, 1314, 1315, 1316, 1317, 1318, 1319, 1320, 1321, 1322, 1323, 1324, 1325, 1326, 1327, 1328, 1329, 1330, 1331, 1332] (by decide +kernel) (by decide +kernel)
set_option maxRecDepth 20000 in
theorem gL_law_X8_isApart : GoodIn wsL_law (wsV RL 197 RX8 yX8_isApart wsX8_isApart) := goodIn_app (goodIn_of _ (by decide +kernel)) ggL_law_X8_isApart
set_option maxRecDepth 20000 in
theorem ggL_law_L_isSame : GoodIn wsL_law wsL_isSame := goodIn_ca (goodIn_r _ [450, 112, 451, 452, 453, 2, 454, 117, 118, 119, 120, 121, 122, 15, 455, 456, 457, 19, 458, 44, 45, 1306, 1307, 1308, 1309, 1310, 1311, 1312, 1313, 1333, 1334] (by decide +kernel) (by decide +kernel)) (goodIn_sub (fun _ h => List.mem_append_left _ (List.mem_append_left _ (List.mem_append_left _ (List.mem_append_left _ (List.mem_append_left _ (List.mem_append_left _ (List.mem_append_left _ (List.mem_append_left _ (List.mem_append_right _ h))))))))) (by decide +kernel))
set_option maxRecDepth 20000 in
theorem gL_law_L_isSame : GoodIn wsL_law (va_wsS RL 198 yL_isSame wsL_isSame) := goodIn_app (goodIn_of _ (by decide +kernel)) ggL_law_L_isSame
set_option maxRecDepth 20000 in
theorem ggL_law_X8_isSame : GoodIn wsL_law wsX8_isSame := goodIn_r _ [462, 97, 147, 148, 5, 149, 150, 151, 152, 156, 157, 158, 159, 160, 357, 358, 359, 360, 361, 362, 1314, 1315, 1316, 1317, 1318, 1319, 1320, 1321, 1322, 1323, 1324, 1325, 1326, 1327, 1328, 1329, 1330, 1331, 1332] (by decide +kernel) (by decide +kernel)
set_option maxRecDepth 20000 in
theorem gL_law_X8_isSame : GoodIn wsL_law (wsV RL 200 RX8 yX8_isSame wsX8_isSame) := goodIn_app (goodIn_of _ (by decide +kernel)) ggL_law_X8_isSame
set_option maxRecDepth 20000 in
theorem ggL_law_L_vote : GoodIn wsL_law wsL_vote := goodIn_ca (goodIn_r _ [465, 466, 467, 468, 469, 2, 470, 123, 124, 125, 126, 127, 128, 129, 130, 471, 472, 473, 474, 15, 194, 136, 137, 19, 138, 44, 45, 1306, 1307, 1308, 1309, 1310, 1311, 1312, 1313, 1333, 1334] (by decide +kernel) (by decide +kernel)) (goodIn_sub (fun _ h => List.mem_append_left _ (List.mem_append_left _ (List.mem_append_left _ (List.mem_append_left _ (List.mem_append_left _ (List.mem_append_left _ (List.mem_append_left _ (List.mem_append_right _ h)))))))) (by decide +kernel))
set_option maxRecDepth 20000 in
theorem gL_law_L_vote : GoodIn wsL_law (va_wsS RL 201 yL_vote wsL_vote) := goodIn_app (goodIn_of _ (by decide +kernel)) ggL_law_L_vote
set_option maxRecDepth 20000 in
theorem ggL_law_X8_vote : GoodIn wsL_law wsX8_vote := goodIn_r _ [478, 153, 154, 5, 155, 150, 151, 152, 156, 157, 158, 159, 160, 165, 166, 167, 479, 480, 481, 482, 97, 1314, 1315, 1316, 1317, 1318, 1319, 1320, 1321, 1322, 1323, 1324, 1325, 1326, 1327, 1328, 1329, 1330, 1331, 1332] (by decide +kernel) (by decide +kernel)
set_option maxRecDepth 20000 in
theorem gL_law_X8_vote : GoodIn wsL_law (wsV RL 203 RX8 yX8_vote wsX8_vote) := goodIn_app (goodIn_of _ (by decide +kernel)) ggL_law_X8_vote
set_option maxRecDepth 20000 in
theorem ggL_law_L_elect : GoodIn wsL_law wsL_elect := goodIn_ca (goodIn_ca (goodIn_r _ [485, 112, 486, 487, 488, 2, 489, 27, 117, 118, 119, 120, 121, 122, 15, 270, 271, 272, 126, 127, 252, 253, 254, 19, 255, 44, 45, 471, 472, 473, 474, 194, 136, 137, 138, 131, 132, 133, 134, 135, 139, 140, 141, 142, 392, 393, 394, 395, 206, 207, 208, 209, 210, 211, 212, 213, 214, 215, 216, 1306, 1307, 1308, 1309, 1310, 1311, 1312, 1313, 1333, 1334] (by decide +kernel) (by decide +kernel)) (goodIn_sub (fun _ h => List.mem_append_left _ (List.mem_append_left _ (List.mem_append_left _ (List.mem_append_left _ (List.mem_append_left _ (List.mem_append_left _ (List.mem_append_left _ (List.mem_append_left _ (List.mem_append_right _ h))))))))) (by decide +kernel))) (goodIn_sub (fun _ h => List.mem_append_left _ (List.mem_append_left _ (List.mem_append_left _ (List.mem_append_left _ (List.mem_append_left _ (List.mem_append_left _ (List.mem_append_left _ (List.mem_append_right _ h)))))))) (by decide +kernel))
set_option maxRecDepth 20000 in
theorem gL_law_L_elect : GoodIn wsL_law (va_wsS RL 204 yL_elect wsL_elect) := goodIn_app (goodIn_of _ (by decide +kernel)) ggL_law_L_elect
set_option maxRecDepth 20000 in
theorem ggL_law_X8_elect : GoodIn wsL_law wsX8_elect := goodIn_r _ [493, 97, 147, 148, 5, 149, 150, 151, 152, 156, 157, 158, 159, 160, 479, 480, 481, 482, 221, 222, 223, 1314, 1315, 1316, 1317, 1318, 1319, 1320, 1321, 1322, 1323, 1324, 1325, 1326, 1327, 1328, 1329, 1330, 1331, 1332] (by decide +kernel) (by decide +kernel)
set_option maxRecDepth 20000 in
theorem gL_law_X8_elect : GoodIn wsL_law (wsV RL 206 RX8 yX8_elect wsX8_elect) := goodIn_app (goodIn_of _ (by decide +kernel)) ggL_law_X8_elect
set_option maxRecDepth 20000 in
theorem ggL_law_L_keep : GoodIn wsL_law wsL_keep := goodIn_ca (goodIn_ca (goodIn_r _ [496, 112, 497, 498, 499, 2, 500, 501, 502, 25, 117, 118, 119, 120, 121, 122, 15, 503, 504, 505, 24, 506, 58, 56, 507, 456, 457, 19, 458, 44, 45, 508, 509, 510, 511, 512, 513, 514, 515, 516, 517, 393, 394, 395, 1306, 1307, 1308, 1309, 1310, 1311, 1312, 1313, 1336, 1337, 1338, 1333, 1334] (by decide +kernel) (by decide +kernel)) (goodIn_sub (fun _ h => List.mem_append_left _ (List.mem_append_left _ (List.mem_append_left _ (List.mem_append_left _ (List.mem_append_right _ h))))) (by decide +kernel))) (goodIn_sub (fun _ h => List.mem_append_left _ (List.mem_append_left _ (List.mem_append_left _ (List.mem_append_left _ (List.mem_append_left _ (List.mem_append_left _ (List.mem_append_left _ (List.mem_append_left _ (List.mem_append_right _ h))))))))) (by decide +kernel))
set_option maxRecDepth 20000 in
theorem gL_law_L_keep : GoodIn wsL_law (va_wsS RL 207 yL_keep wsL_keep) := goodIn_app (goodIn_of _ (by decide +kernel)) ggL_law_L_keep
set_option maxRecDepth 20000 in
theorem ggL_law_X8_keep : GoodIn wsL_law wsX8_keep := goodIn_r _ [521, 99, 107, 97, 147, 148, 5, 149, 150, 151, 152, 522, 523, 524, 357, 358, 359, 360, 361, 362, 156, 157, 158, 159, 160, 525, 526, 527, 528, 529, 530, 354, 355, 356, 1314, 1315, 1316, 1317, 1318, 1319, 1320, 1321, 1322, 1323, 1324, 1325, 1326, 1327, 1328, 1329, 1330, 1331, 1332] (by decide +kernel) (by decide +kernel)
set_option maxRecDepth 20000 in
theorem gL_law_X8_keep : GoodIn wsL_law (wsV RL 209 RX8 yX8_keep wsX8_keep) := goodIn_app (goodIn_of _ (by decide +kernel)) ggL_law_X8_keep
set_option maxRecDepth 20000 in
theorem ggL_law_L_drop : GoodIn wsL_law wsL_drop := goodIn_ca (goodIn_r _ [533, 112, 534, 535, 536, 2, 537, 25, 117, 118, 119, 120, 121, 122, 15, 538, 539, 540, 24, 541, 58, 56, 512, 504, 505, 506, 507, 456, 457, 19, 458, 44, 45, 517, 393, 394, 395, 1306, 1307, 1308, 1309, 1310, 1311, 1312, 1313, 1336, 1337, 1338, 1333, 1334] (by decide +kernel) (by decide +kernel)) (goodIn_sub (fun _ h => List.mem_append_left _ (List.mem_append_left _ (List.mem_append_left _ (List.mem_append_left _ (List.mem_append_left _ (List.mem_append_left _ (List.mem_append_left _ (List.mem_append_left _ (List.mem_append_right _ h))))))))) (by decide +kernel))
set_option maxRecDepth 20000 in
theorem gL_law_L_drop : GoodIn wsL_law (va_wsS RL 210 yL_drop wsL_drop) := goodIn_app (goodIn_of _ (by decide +kernel)) ggL_law_L_drop
set_option maxRecDepth 20000 in
theorem ggL_law_X8_drop : GoodIn wsL_law wsX8_drop := goodIn_r _ [545, 99, 107, 97, 147, 148, 5, 149, 150, 151, 152, 156, 157, 158, 159, 160, 522, 523, 524, 357, 358, 359, 360, 361, 362, 354, 355, 356, 1314, 1315, 1316, 1317, 1318, 1319, 1320, 1321, 1322, 1323, 1324, 1325, 1326, 1327, 1328, 1329, 1330, 1331, 1332] (by decide +kernel) (by decide +kernel)
set_option maxRecDepth 20000 in
theorem gL_law_X8_drop : GoodIn wsL_law (wsV RL 212 RX8 yX8_drop wsX8_drop) := goodIn_app (goodIn_of _ (by decide +kernel)) ggL_law_X8_drop
set_option maxRecDepth 20000 in
theorem ggL_law_L_isKept : GoodIn wsL_law wsL_isKept := goodIn_ca (goodIn_r _ [548, 112, 549, 550, 551, 2, 552, 25, 117, 118, 119, 120, 121, 122, 15, 503, 504, 505, 24, 506, 58, 56, 507, 456, 457, 19, 458, 44, 45, 1306, 1307, 1308, 1309, 1310, 1311, 1312, 1313, 1336, 1337, 1338, 1333, 1334] (by decide +kernel) (by decide +kernel)) (goodIn_sub (fun _ h => List.mem_append_left _ (List.mem_append_left _ (List.mem_append_left _ (List.mem_append_left _ (List.mem_append_left _ (List.mem_append_left _ (List.mem_append_left _ (List.mem_append_left _ (List.mem_append_right _ h))))))))) (by decide +kernel))
set_option maxRecDepth 20000 in
theorem gL_law_L_isKept : GoodIn wsL_law (va_wsS RL 213 yL_isKept wsL_isKept) := goodIn_app (goodIn_of _ (by decide +kernel)) ggL_law_L_isKept
set_option maxRecDepth 20000 in
theorem ggL_law_X8_isKept : GoodIn wsL_law wsX8_isKept := goodIn_r _ [556, 99, 107, 97, 147, 148, 5, 149, 150, 151, 152, 156, 157, 158, 159, 160, 522, 523, 524, 357, 358, 359, 360, 361, 362, 1314, 1315, 1316, 1317, 1318, 1319, 1320, 1321, 1322, 1323, 1324, 1325, 1326, 1327, 1328, 1329, 1330, 1331, 1332] (by decide +kernel) (by decide +kernel)
set_option maxRecDepth 20000 in
theorem gL_law_X8_isKept : GoodIn wsL_law (wsV RL 215 RX8 yX8_isKept wsX8_isKept) := goodIn_app (goodIn_of _ (by decide +kernel)) ggL_law_X8_isKept
set_option maxRecDepth 20000 in
theorem ggL_law_X7_kept : GoodIn wsL_law wsX7_kept := goodIn_r _ [560, 25, 561, 562, 563, 24, 564, 58, 1306, 1307, 1308, 1309, 1310, 1311, 1312, 1313, 1336, 1337, 1338] (by decide +kernel) (by decide +kernel)
set_option maxRecDepth 20000 in
theorem gL_law_X7_kept : GoodIn wsL_law (wsV RL 216 RX7 yX7_kept wsX7_kept) := goodIn_app (goodIn_of _ (by decide +kernel)) ggL_law_X7_kept
set_option maxRecDepth 20000 in
theorem ggL_law_X8_kept : GoodIn wsL_law wsX8_kept := goodIn_r _ [568, 160, 107, 1314, 1315, 1316, 1317, 1318, 1319, 1320, 1321, 1322, 1323, 1324, 1325, 1326, 1327, 1328, 1329, 1330, 1331, 1332] (by decide +kernel) (by decide +kernel)
set_option maxRecDepth 20000 in
theorem gL_law_X8_kept : GoodIn wsL_law (wsV RL 219 RX8 yX8_kept wsX8_kept) := goodIn_app (goodIn_of _ (by decide +kernel)) ggL_law_X8_kept
set_option maxRecDepth 20000 in
theorem ggL_law_X7_keptSum : GoodIn wsL_law wsX7_keptSum := goodIn_r _ [572, 25, 573, 574, 575, 24, 576, 58, 56, 577, 232, 233, 19, 234, 135, 136, 137, 138, 44, 45, 1306, 1307, 1308, 1309, 1310, 1311, 1312, 1313, 1336, 1337, 1338, 1333, 1334] (by decide +kernel) (by decide +kernel)
set_option maxRecDepth 20000 in
theorem gL_law_X7_keptSum : GoodIn wsL_law (wsV RL 220 RX7 yX7_keptSum wsX7_keptSum) := goodIn_app (goodIn_of _ (by decide +kernel)) ggL_law_X7_keptSum
set_option maxRecDepth 20000 in
theorem ggL_law_X8_keptSum : GoodIn wsL_law wsX8_keptSum := goodIn_r _ [581, 160, 107, 99, 239, 240, 5, 241, 242, 243, 244, 1314, 1315, 1316, 1317, 1318, 1319, 1320, 1321, 1322, 1323, 1324, 1325, 1326, 1327, 1328, 1329, 1330, 1331, 1332] (by decide +kernel) (by decide +kernel)
set_option maxRecDepth 20000 in
theorem gL_law_X8_keptSum : GoodIn wsL_law (wsV RL 223 RX8 yX8_keptSum wsX8_keptSum) := goodIn_app (goodIn_of _ (by decide +kernel)) ggL_law_X8_keptSum
set_option maxRecDepth 20000 in
theorem ggL_law_X7_dropAll : GoodIn wsL_law wsX7_dropAll := goodIn_r _ [585, 25, 561, 562, 563, 24, 564, 58, 586, 587, 588, 589, 1306, 1307, 1308, 1309, 1310, 1311, 1312, 1313, 1336, 1337, 1338] (by decide +kernel) (by decide +kernel)
set_option maxRecDepth 20000 in
theorem gL_law_X7_dropAll : GoodIn wsL_law (wsV RL 224 RX7 yX7_dropAll wsX7_dropAll) := goodIn_app (goodIn_of _ (by decide +kernel)) ggL_law_X7_dropAll
set_option maxRecDepth 20000 in
theorem ggL_law_X8_dropAll : GoodIn wsL_law wsX8_dropAll := goodIn_r _ [593, 160, 107, 1314, 1315, 1316, 1317, 1318, 1319, 1320, 1321, 1322, 1323, 1324, 1325, 1326, 1327, 1328, 1329, 1330, 1331, 1332] (by decide +kernel) (by decide +kernel)
set_option maxRecDepth 20000 in
theorem gL_law_X8_dropAll : GoodIn wsL_law (wsV RL 227 RX8 yX8_dropAll wsX8_dropAll) := goodIn_app (goodIn_of _ (by decide +kernel)) ggL_law_X8_dropAll
set_option maxRecDepth 20000 in
theorem ggL_law_L_placeOf : GoodIn wsL_law wsL_placeOf := goodIn_ca (goodIn_r _ [596, 112, 597, 598, 599, 2, 600, 25, 117, 118, 119, 120, 121, 122, 15, 503, 504, 505, 24, 506, 58, 56, 507, 456, 457, 19, 458, 44, 45, 1306, 1307, 1308, 1309, 1310, 1311, 1312, 1313, 1336, 1337, 1338, 1333, 1334] (by decide +kernel) (by decide +kernel)) (goodIn_sub (fun _ h => List.mem_append_left _ (List.mem_append_left _ (List.mem_append_left _ (List.mem_append_left _ (List.mem_append_left _ (List.mem_append_left _ (List.mem_append_left _ (List.mem_append_left _ (List.mem_append_right _ h))))))))) (by decide +kernel))
set_option maxRecDepth 20000 in
theorem gL_law_L_placeOf : GoodIn wsL_law (va_wsS RL 228 yL_placeOf wsL_placeOf) := goodIn_app (goodIn_of _ (by decide +kernel)) ggL_law_L_placeOf
set_option maxRecDepth 20000 in
theorem ggL_law_X8_placeOf : GoodIn wsL_law wsX8_placeOf := goodIn_r _ [604, 99, 107, 97, 147, 148, 5, 149, 150, 151, 152, 156, 157, 158, 159, 160, 522, 523, 524, 357, 358, 359, 360, 361, 362, 1314, 1315, 1316, 1317, 1318, 1319, 1320, 1321, 1322, 1323, 1324, 1325, 1326, 1327, 1328, 1329, 1330, 1331, 1332] (by decide +kernel) (by decide +kernel)
set_option maxRecDepth 20000 in
theorem gL_law_X8_placeOf : GoodIn wsL_law (wsV RL 230 RX8 yX8_placeOf wsX8_placeOf) := goodIn_app (goodIn_of _ (by decide +kernel)) ggL_law_X8_placeOf
set_option maxRecDepth 20000 in
theorem ggL_law_L_take : GoodIn wsL_law wsL_take := goodIn_ca (goodIn_ca (goodIn_r _ [607, 112, 608, 609, 610, 2, 611, 284, 285, 25, 117, 118, 119, 120, 121, 122, 15, 612, 613, 614, 24, 615, 58, 616, 617, 618, 619, 56, 620, 517, 393, 394, 19, 395, 44, 45, 206, 207, 208, 209, 210, 211, 212, 213, 214, 215, 216, 1306, 1307, 1308, 1309, 1310, 1311, 1312, 1313, 1336, 1337, 1338, 1333, 1334] (by decide +kernel) (by decide +kernel)) (goodIn_sub (fun _ h => List.mem_append_left _ (List.mem_append_left _ (List.mem_append_left _ (List.mem_append_left _ (List.mem_append_left _ (List.mem_append_left _ (List.mem_append_right _ h))))))) (by decide +kernel))) (goodIn_sub (fun _ h => List.mem_append_left _ (List.mem_append_left _ (List.mem_append_left _ (List.mem_append_left _ (List.mem_append_left _ (List.mem_append_left _ (List.mem_append_left _ (List.mem_append_left _ (List.mem_append_right _ h))))))))) (by decide +kernel))
set_option maxRecDepth 20000 in
theorem gL_law_L_take : GoodIn wsL_law (va_wsS RL 231 yL_take wsL_take) := goodIn_app (goodIn_of _ (by decide +kernel)) ggL_law_L_take
set_option maxRecDepth 20000 in
theorem ggL_law_X8_take : GoodIn wsL_law wsX8_take := goodIn_r _ [624, 107, 99, 97, 147, 148, 5, 149, 150, 151, 152, 156, 157, 158, 159, 160, 354, 355, 356, 221, 222, 223, 1314, 1315, 1316, 1317, 1318, 1319, 1320, 1321, 1322, 1323, 1324, 1325, 1326, 1327, 1328, 1329, 1330, 1331, 1332] (by decide +kernel) (by decide +kernel)
set_option maxRecDepth 20000 in
theorem gL_law_X8_take : GoodIn wsL_law (wsV RL 233 RX8 yX8_take wsX8_take) := goodIn_app (goodIn_of _ (by decide +kernel)) ggL_law_X8_take
set_option maxRecDepth 20000 in
theorem ggL_law_L_spread : GoodIn wsL_law wsL_spread := goodIn_ca (goodIn_ca (goodIn_r _ [627, 466, 628, 629, 630, 2, 631, 26, 25, 270, 271, 272, 126, 127, 632, 633, 634, 24, 635, 58, 56, 517, 393, 394, 19, 395, 44, 45, 636, 637, 638, 639, 57, 640, 641, 642, 643, 644, 341, 342, 343, 344, 345, 645, 509, 510, 511, 512, 504, 505, 506, 507, 456, 457, 458, 513, 514, 515, 516, 561, 562, 563, 564, 1306, 1307, 1308, 1309, 1310, 1311, 1312, 1313, 1336, 1337, 1338, 1333, 1334] (by decide +kernel) (by decide +kernel)) (goodIn_sub (fun _ h => List.mem_append_left _ (List.mem_append_left _ (List.mem_append_left _ (List.mem_append_left _ (List.mem_append_left _ (List.mem_append_left _ (List.mem_append_left _ (List.mem_append_right _ h)))))))) (by decide +kernel))) (goodIn_sub (fun _ h => List.mem_append_left _ (List.mem_append_left _ (List.mem_append_left _ (List.mem_append_left _ (List.mem_append_left _ (List.mem_append_right _ h)))))) (by decide +kernel))
set_option maxRecDepth 20000 in
theorem gL_law_L_spread : GoodIn wsL_law (va_wsS RL 234 yL_spread wsL_spread) := goodIn_app (goodIn_of _ (by decide +kernel)) ggL_law_L_spread
set_option maxRecDepth 20000 in
theorem ggL_law_X8_spread : GoodIn wsL_law wsX8_spread := goodIn_r _ [649, 650, 107, 100, 99, 150, 151, 5, 152, 156, 157, 158, 159, 160, 651, 652, 653, 654, 98, 354, 355, 356, 260, 261, 262, 522, 523, 524, 357, 358, 359, 360, 361, 362, 525, 526, 527, 528, 529, 530, 1314, 1315, 1316, 1317, 1318, 1319, 1320, 1321, 1322, 1323, 1324, 1325, 1326, 1327, 1328, 1329, 1330, 1331, 1332] (by decide +kernel) (by decide +kernel)
set_option maxRecDepth 20000 in
theorem gL_law_X8_spread : GoodIn wsL_law (wsV RL 236 RX8 yX8_spread wsX8_spread) := goodIn_app (goodIn_of _ (by decide +kernel)) ggL_law_X8_spread
set_option maxRecDepth 20000 in
theorem ggL_law_L_isClosed : GoodIn wsL_law wsL_isClosed := goodIn_ca (goodIn_ca (goodIn_r _ [657, 466, 658, 659, 660, 2, 661, 25, 270, 271, 272, 126, 127, 662, 663, 664, 24, 665, 58, 57, 640, 641, 642, 643, 56, 517, 393, 394, 19, 395, 44, 45, 644, 341, 342, 343, 344, 345, 512, 504, 505, 506, 507, 456, 457, 458, 1306, 1307, 1308, 1309, 1310, 1311, 1312, 1313, 1336, 1337, 1338, 1333, 1334] (by decide +kernel) (by decide +kernel)) (goodIn_sub (fun _ h => List.mem_append_left _ (List.mem_append_left _ (List.mem_append_left _ (List.mem_append_left _ (List.mem_append_left _ (List.mem_append_left _ (List.mem_append_left _ (List.mem_append_right _ h)))))))) (by decide +kernel))) (goodIn_sub (fun _ h => List.mem_append_left _ (List.mem_append_left _ (List.mem_append_left _ (List.mem_append_left _ (List.mem_append_left _ (List.mem_append_right _ h)))))) (by decide +kernel))
set_option maxRecDepth 20000 in
theorem gL_law_L_isClosed : GoodIn wsL_law (va_wsS RL 237 yL_isClosed wsL_isClosed) := goodIn_app (goodIn_of _ (by decide +kernel)) ggL_law_L_isClosed
set_option maxRecDepth 20000 in
theorem ggL_law_X8_isClosed : GoodIn wsL_law wsX8_isClosed := goodIn_r _ [669, 650, 107, 150, 151, 5, 152, 156, 157, 158, 159, 160, 651, 652, 653, 654, 99, 100, 98, 354, 355, 356, 260, 261, 262, 522, 523, 524, 357, 358, 359, 360, 361, 362, 525, 526, 527, 528, 529, 530, 1314, 1315, 1316, 1317, 1318, 1319, 1320, 1321, 1322, 1323, 1324, 1325, 1326, 1327, 1328, 1329, 1330, 1331, 1332] (by decide +kernel) (by decide +kernel)
set_option maxRecDepth 20000 in
theorem gL_law_X8_isClosed : GoodIn wsL_law (wsV RL 239 RX8 yX8_isClosed wsX8_isClosed) := goodIn_app (goodIn_of _ (by decide +kernel)) ggL_law_X8_isClosed
set_option maxRecDepth 20000 in
theorem ggL_law_X7_isChain : GoodIn wsL_law wsX7_isChain := goodIn_ca (goodIn_r _ [673, 25, 674, 675, 676, 24, 677, 58, 56, 678, 423, 424, 19, 425, 344, 127, 44, 345, 45, 1306, 1307, 1308, 1309, 1310, 1311, 1312, 1313, 1336, 1337, 1338, 1333, 1334] (by decide +kernel) (by decide +kernel)) (goodIn_sub (fun _ h => List.mem_append_left _ (List.mem_append_left _ (List.mem_append_left _ (List.mem_append_left _ (List.mem_append_left _ (List.mem_append_right _ h)))))) (by decide +kernel))
set_option maxRecDepth 20000 in
theorem gL_law_X7_isChain : GoodIn wsL_law (wsV RL 240 RX7 yX7_isChain wsX7_isChain) := goodIn_app (goodIn_of _ (by decide +kernel)) ggL_law_X7_isChain
set_option maxRecDepth 20000 in
theorem ggL_law_X8_isChain : GoodIn wsL_law wsX8_isChain := goodIn_r _ [682, 160, 107, 99, 430, 431, 5, 432, 1314, 1315, 1316, 1317, 1318, 1319, 1320, 1321, 1322, 1323, 1324, 1325, 1326, 1327, 1328, 1329, 1330, 1331, 1332] (by decide +kernel) (by decide +kernel)
set_option maxRecDepth 20000 in
theorem gL_law_X8_isChain : GoodIn wsL_law (wsV RL 244 RX8 yX8_isChain wsX8_isChain) := goodIn_app (goodIn_of _ (by decide +kernel)) ggL_law_X8_isChain
set_option maxRecDepth 20000 in
theorem ggL_law_X7_primes : GoodIn wsL_law wsX7_primes := goodIn_ca (goodIn_r _ [686, 25, 687, 688, 689, 24, 690, 58, 56, 691, 692, 693, 694, 695, 696, 697, 698, 678, 423, 424, 19, 425, 344, 127, 44, 345, 45, 699, 700, 701, 702, 57, 703, 253, 254, 255, 644, 341, 342, 343, 507, 456, 457, 458, 704, 705, 706, 707, 708, 709, 710, 1306, 1307, 1308, 1309, 1310, 1311, 1312, 1313, 1336, 1337, 1338, 1333, 1334] (by decide +kernel) (by decide +kernel)) (goodIn_sub (fun _ h => List.mem_append_left _ (List.mem_append_left _ (List.mem_append_left _ (List.mem_append_left _ (List.mem_append_left _ (List.mem_append_right _ h)))))) (by decide +kernel))
set_option maxRecDepth 20000 in
theorem gL_law_X7_primes : GoodIn wsL_law (wsV RL 245 RX7 yX7_primes wsX7_primes) := goodIn_app (goodIn_of _ (by decide +kernel)) ggL_law_X7_primes
set_option maxRecDepth 20000 in
theorem ggL_law_X8_primes : GoodIn wsL_law wsX8_primes := goodIn_r _ [714, 160, 107, 715, 716, 717, 5, 718, 99, 101, 719, 720, 721, 357, 358, 359, 360, 361, 362, 722, 260, 261, 262, 430, 431, 432, 1314, 1315, 1316, 1317, 1318, 1319, 1320, 1321, 1322, 1323, 1324, 1325, 1326, 1327, 1328, 1329, 1330, 1331, 1332] (by decide +kernel) (by decide +kernel)
set_option maxRecDepth 20000 in
theorem gL_law_X8_primes : GoodIn wsL_law (wsV RL 248 RX8 yX8_primes wsX8_primes) := goodIn_app (goodIn_of _ (by decide +kernel)) ggL_law_X8_primes
set_option maxRecDepth 20000 in
theorem ggL_law_L_primesWithin : GoodIn wsL_law wsL_primesWithin := goodIn_ca (goodIn_ca (goodIn_r _ [725, 112, 726, 727, 728, 2, 729, 25, 117, 118, 119, 120, 121, 122, 15, 687, 688, 689, 24, 690, 58, 56, 691, 692, 693, 694, 695, 696, 697, 698, 678, 423, 424, 19, 425, 344, 127, 44, 345, 45, 699, 700, 701, 702, 57, 703, 253, 254, 255, 644, 341, 342, 343, 507, 456, 457, 458, 730, 704, 705, 706, 707, 708, 709, 710, 1306, 1307, 1308, 1309, 1310, 1311, 1312, 1313, 1336, 1337, 1338, 1333, 1334] (by decide +kernel) (by decide +kernel)) (goodIn_sub (fun _ h => List.mem_append_left _ (List.mem_append_left _ (List.mem_append_left _ (List.mem_append_left _ (List.mem_append_left _ (List.mem_append_left _ (List.mem_append_left _ (List.mem_append_left _ (List.mem_append_right _ h))))))))) (by decide +kernel))) (goodIn_sub (fun _ h => List.mem_append_left _ (List.mem_append_left _ (List.mem_append_left _ (List.mem_append_left _ (List.mem_append_left _ (List.mem_append_right _ h)))))) (by decide +kernel))
set_option maxRecDepth 20000 in
theorem gL_law_L_primesWithin : GoodIn wsL_law (va_wsS RL 249 yL_primesWithin wsL_primesWithin) := goodIn_app (goodIn_of _ (by decide +kernel)) ggL_law_L_primesWithin
set_option maxRecDepth 20000 in
theorem ggL_law_X8_primesWithin : GoodIn wsL_law wsX8_primesWithin := goodIn_r _ [734, 97, 147, 148, 5, 149, 150, 151, 152, 156, 157, 158, 159, 160, 735, 736, 737, 738, 107, 99, 430, 431, 432, 715, 716, 717, 718, 101, 719, 720, 721, 357, 358, 359, 360, 361, 362, 722, 260, 261, 262, 1314, 1315, 1316, 1317, 1318, 1319, 1320, 1321, 1322, 1323, 1324, 1325, 1326, 1327, 1328, 1329, 1330, 1331, 1332] (by decide +kernel) (by decide +kernel)
set_option maxRecDepth 20000 in
theorem gL_law_X8_primesWithin : GoodIn wsL_law (wsV RL 251 RX8 yX8_primesWithin wsX8_primesWithin) := goodIn_app (goodIn_of _ (by decide +kernel)) ggL_law_X8_primesWithin
set_option maxRecDepth 20000 in
theorem ggL_law_L_type : GoodIn wsL_law wsL_type := goodIn_ca (goodIn_r _ [741, 742, 743, 744, 745, 2, 746, 501, 502, 31, 747, 748, 749, 30, 750, 751, 66, 752, 753, 754, 755, 65, 756, 757, 758, 759, 1306, 1307, 1308, 1309, 1310, 1311, 1312, 1313, 1339, 1340] (by decide +kernel) (by decide +kernel)) (goodIn_sub (fun _ h => List.mem_append_left _ (List.mem_append_left _ (List.mem_append_left _ (List.mem_append_left _ (List.mem_append_right _ h))))) (by decide +kernel))
set_option maxRecDepth 20000 in
theorem gL_law_L_type : GoodIn wsL_law (va_wsS RL 254 yL_type wsL_type) := goodIn_app (goodIn_of _ (by decide +kernel)) ggL_law_L_type
set_option maxRecDepth 20000 in
theorem ggL_law_X8_type : GoodIn wsL_law wsX8_type := goodIn_r _ [763, 764, 765, 102, 156, 157, 158, 5, 159, 160, 1314, 1315, 1316, 1317, 1318, 1319, 1320, 1321, 1322, 1323, 1324, 1325, 1326, 1327, 1328, 1329, 1330, 1331, 1332] (by decide +kernel) (by decide +kernel)
set_option maxRecDepth 20000 in
theorem gL_law_X8_type : GoodIn wsL_law (wsV RL 257 RX8 yX8_type wsX8_type) := goodIn_app (goodIn_of _ (by decide +kernel)) ggL_law_X8_type
set_option maxRecDepth 20000 in
theorem ggL_law_X7_clearText : GoodIn wsL_law wsX7_clearText := goodIn_r _ [769, 31, 756, 757, 758, 30, 759, 66, 770, 771, 772, 773, 1306, 1307, 1308, 1309, 1310, 1311, 1312, 1313, 1339, 1340] (by decide +kernel) (by decide +kernel)
set_option maxRecDepth 20000 in
theorem gL_law_X7_clearText : GoodIn wsL_law (wsV RL 258 RX7 yX7_clearText wsX7_clearText) := goodIn_app (goodIn_of _ (by decide +kernel)) ggL_law_X7_clearText
set_option maxRecDepth 20000 in
theorem ggL_law_X8_clearText : GoodIn wsL_law wsX8_clearText := goodIn_r _ [777, 160, 765, 1314, 1315, 1316, 1317, 1318, 1319, 1320, 1321, 1322, 1323, 1324, 1325, 1326, 1327, 1328, 1329, 1330, 1331, 1332] (by decide +kernel) (by decide +kernel)
set_option maxRecDepth 20000 in
theorem gL_law_X8_clearText : GoodIn wsL_law (wsV RL 261 RX8 yX8_clearText wsX8_clearText) := goodIn_app (goodIn_of _ (by decide +kernel)) ggL_law_X8_clearText
set_option maxRecDepth 20000 in
theorem ggL_law_X7_textLength : GoodIn wsL_law wsX7_textLength := goodIn_r _ [781, 31, 756, 757, 758, 30, 759, 66, 1306, 1307, 1308, 1309, 1310, 1311, 1312, 1313, 1339, 1340] (by decide +kernel) (by decide +kernel)
set_option maxRecDepth 20000 in
theorem gL_law_X7_textLength : GoodIn wsL_law (wsV RL 262 RX7 yX7_textLength wsX7_textLength) := goodIn_app (goodIn_of _ (by decide +kernel)) ggL_law_X7_textLength
set_option maxRecDepth 20000 in
theorem ggL_law_X8_textLength : GoodIn wsL_law wsX8_textLength := goodIn_r _ [785, 160, 765, 1314, 1315, 1316, 1317, 1318, 1319, 1320, 1321, 1322, 1323, 1324, 1325, 1326, 1327, 1328, 1329, 1330, 1331, 1332] (by decide +kernel) (by decide +kernel)
set_option maxRecDepth 20000 in
theorem gL_law_X8_textLength : GoodIn wsL_law (wsV RL 265 RX8 yX8_textLength wsX8_textLength) := goodIn_app (goodIn_of _ (by decide +kernel)) ggL_law_X8_textLength
set_option maxRecDepth 20000 in
theorem ggL_law_L_example : GoodIn wsL_law wsL_example := goodIn_ca (goodIn_r _ [788, 466, 789, 790, 791, 2, 792, 31, 270, 271, 272, 126, 127, 793, 794, 795, 30, 796, 66, 797, 798, 799, 800, 801, 802, 803, 804, 805, 806, 807, 808, 809, 810, 811, 812, 813, 814, 815, 816, 817, 818, 819, 820, 821, 822, 823, 824, 825, 826, 827, 828, 829, 830, 831, 832, 833, 834, 835, 836, 837, 838, 839, 840, 841, 842, 843, 844, 845, 752, 753, 754, 755, 65, 756, 757, 758, 759, 1306, 1307, 1308, 1309, 1310, 1311, 1312, 1313, 1339, 1340] (by decide +kernel) (by decide +kernel)) (goodIn_sub (fun _ h => List.mem_append_left _ (List.mem_append_left _ (List.mem_append_left _ (List.mem_append_left _ (List.mem_append_left _ (List.mem_append_left _ (List.mem_append_left _ (List.mem_append_right _ h)))))))) (by decide +kernel))
set_option maxRecDepth 20000 in
theorem gL_law_L_example : GoodIn wsL_law (va_wsS RL 266 yL_example wsL_example) := goodIn_app (goodIn_of _ (by decide +kernel)) ggL_law_L_example
set_option maxRecDepth 20000 in
theorem ggL_law_X8_example : GoodIn wsL_law wsX8_example := goodIn_r _ [849, 102, 765, 150, 151, 5, 152, 156, 157, 158, 159, 160, 850, 851, 852, 853, 798, 799, 800, 801, 802, 803, 804, 805, 806, 807, 808, 854, 810, 811, 812, 813, 814, 815, 816, 817, 818, 819, 820, 821, 822, 823, 824, 825, 826, 827, 828, 829, 830, 831, 832, 833, 834, 835, 836, 837, 838, 839, 840, 841, 842, 843, 844, 845, 1314, 1315, 1316, 1317, 1318, 1319, 1320, 1321, 1322, 1323, 1324, 1325, 1326, 1327, 1328, 1329, 1330, 1331, 1332] (by decide +kernel) (by decide +kernel)
set_option maxRecDepth 20000 in
theorem gL_law_X8_example : GoodIn wsL_law (wsV RL 268 RX8 yX8_example wsX8_example) := goodIn_app (goodIn_of _ (by decide +kernel)) ggL_law_X8_example
set_option maxRecDepth 20000 in
theorem ggL_law_X7_errorKind : GoodIn wsL_law wsX7_errorKind := goodIn_ca (goodIn_r _ [858, 35, 15, 859, 860, 861, 34, 862, 863, 864, 71, 865, 866, 867, 868, 869, 73, 870, 871, 81, 872, 393, 394, 19, 395, 44, 45, 873, 874, 875, 876, 877, 757, 758, 30, 759, 66, 878, 879, 880, 881, 65, 882, 883, 884, 885, 886, 887, 888, 889, 890, 891, 892, 893, 894, 895, 896, 897, 898, 899, 900, 901, 902, 903, 904, 905, 906, 907, 908, 909, 910, 911, 912, 913, 75, 78, 80, 914, 253, 254, 255, 915, 916, 917, 918, 74, 919, 920, 921, 922, 76, 923, 341, 342, 343, 344, 127, 345, 924, 925, 926, 927, 928, 929, 930, 931, 932, 933, 934, 935, 936, 937, 938, 939, 940, 941, 942, 943, 944, 945, 946, 947, 948, 949, 950, 951, 952, 953, 132, 133, 134, 135, 136, 137, 138, 139, 140, 141, 142, 954, 955, 956, 957, 958, 959, 960, 961, 962, 963, 964, 965, 966, 967, 968, 969, 970, 971, 972, 973, 974, 975, 976, 1306, 1307, 1308, 1309, 1310, 1311, 1312, 1313, 1341, 1342, 1343, 1344, 1345, 1346, 1347, 1348, 1349, 1350, 1351, 1352, 1353, 1354, 1355, 1333, 1334, 1339, 1340] (by decide +kernel) (by decide +kernel)) (goodIn_sub (fun _ h => List.mem_append_left _ (List.mem_append_left _ (List.mem_append_left _ (List.mem_append_left _ (List.mem_append_left _ (List.mem_append_right _ h)))))) (by decide +kernel))
set_option maxRecDepth 20000 in
theorem gL_law_X7_errorKind : GoodIn wsL_law (wsV RL 269 RX7 yX7_errorKind wsX7_errorKind) := goodIn_app (goodIn_of _ (by decide +kernel)) ggL_law_X7_errorKind
set_option maxRecDepth 20000 in
theorem ggL_law_X8_errorKind : GoodIn wsL_law wsX8_errorKind := goodIn_r _ [980, 160, 981, 982, 983, 984, 5, 985, 986, 987, 988, 765, 989, 103, 97, 990, 991, 992, 993, 994, 995, 996, 997, 102, 147, 148, 149, 150, 151, 152, 998, 999, 1000, 1001, 1002, 1003, 1004, 1005, 1006, 1007, 1008, 1009, 1010, 1011, 1012, 1013, 1014, 1015, 1016, 260, 261, 262, 1017, 354, 355, 356, 1018, 1019, 1020, 1021, 1022, 1023, 1024, 1025, 1026, 1027, 1028, 1029, 1030, 1031, 1032, 1033, 165, 166, 167, 1034, 1035, 1036, 1037, 1314, 1315, 1316, 1317, 1318, 1319, 1320, 1321, 1322, 1323, 1324, 1325, 1326, 1327, 1328, 1329, 1330, 1331, 1332] (by decide +kernel) (by decide +kernel)
set_option maxRecDepth 20000 in
theorem gL_law_X8_errorKind : GoodIn wsL_law (wsV RL 272 RX8 yX8_errorKind wsX8_errorKind) := goodIn_app (goodIn_of _ (by decide +kernel)) ggL_law_X8_errorKind
set_option maxRecDepth 20000 in
theorem ggL_law_X7_errorPlace : GoodIn wsL_law wsX7_errorPlace := goodIn_ca (goodIn_r _ [1041, 35, 15, 859, 860, 861, 34, 862, 863, 864, 71, 865, 866, 867, 868, 869, 73, 870, 871, 81, 872, 393, 394, 19, 395, 44, 45, 873, 874, 875, 876, 877, 757, 758, 30, 759, 66, 878, 879, 880, 881, 65, 882, 883, 884, 885, 886, 887, 888, 889, 890, 891, 892, 893, 894, 895, 896, 897, 898, 899, 900, 901, 902, 903, 904, 905, 906, 907, 908, 909, 910, 911, 912, 913, 75, 78, 80, 914, 253, 254, 255, 915, 916, 917, 918, 74, 919, 920, 921, 922, 76, 923, 341, 342, 343, 344, 127, 345, 924, 925, 926, 927, 928, 929, 930, 931, 932, 933, 934, 935, 936, 937, 938, 939, 940, 941, 942, 943, 944, 945, 946, 947, 948, 949, 950, 951, 952, 953, 132, 133, 134, 135, 136, 137, 138, 139, 140, 141, 142, 954, 955, 956, 957, 958, 959, 960, 961, 962, 963, 964, 965, 966, 967, 968, 969, 970, 971, 972, 1042, 1043, 1044, 1045, 1306, 1307, 1308, 1309, 1310, 1311, 1312, 1313, 1341, 1342, 1343, 1344, 1345, 1346, 1347, 1348, 1349, 1350, 1351, 1352, 1353, 1354, 1355, 1333, 1334, 1339, 1340] (by decide +kernel) (by decide +kernel)) (goodIn_sub (fun _ h => List.mem_append_left _ (List.mem_append_left _ (List.mem_append_left _ (List.mem_append_left _ (List.mem_append_left _ (List.mem_append_right _ h)))))) (by decide +kernel))
set_option maxRecDepth 20000 in
theorem gL_law_X7_errorPlace : GoodIn wsL_law (wsV RL 273 RX7 yX7_errorPlace wsX7_errorPlace) := goodIn_app (goodIn_of _ (by decide +kernel)) ggL_law_X7_errorPlace
set_option maxRecDepth 20000 in
theorem ggL_law_X8_errorPlace : GoodIn wsL_law wsX8_errorPlace := goodIn_r _ [1049, 160, 986, 982, 983, 984, 5, 985, 981, 987, 988, 765, 989, 103, 97, 990, 991, 992, 993, 994, 995, 996, 997, 102, 147, 148, 149, 150, 151, 152, 998, 999, 1000, 1001, 1002, 1003, 1004, 1005, 1006, 1007, 1008, 1009, 1010, 1011, 1012, 1013, 1014, 1015, 1016, 260, 261, 262, 1017, 354, 355, 356, 1018, 1019, 1020, 1021, 1022, 1023, 1024, 1025, 1026, 1027, 1028, 1029, 1030, 1031, 1032, 1033, 165, 166, 167, 1034, 1035, 1036, 1037, 1314, 1315, 1316, 1317, 1318, 1319, 1320, 1321, 1322, 1323, 1324, 1325, 1326, 1327, 1328, 1329, 1330, 1331, 1332] (by decide +kernel) (by decide +kernel)
set_option maxRecDepth 20000 in
theorem gL_law_X8_errorPlace : GoodIn wsL_law (wsV RL 276 RX8 yX8_errorPlace wsX8_errorPlace) := goodIn_app (goodIn_of _ (by decide +kernel)) ggL_law_X8_errorPlace
set_option maxRecDepth 20000 in
theorem ggL_law_L_run : GoodIn wsL_law wsL_run := goodIn_ca (goodIn_ca (goodIn_r _ [1052, 742, 1053, 1054, 1055, 2, 1056, 501, 502, 35, 15, 859, 860, 861, 34, 862, 863, 864, 71, 865, 866, 867, 868, 869, 73, 870, 871, 81, 872, 393, 394, 19, 395, 44, 45, 873, 874, 875, 876, 877, 757, 758, 30, 759, 66, 878, 879, 880, 881, 65, 882, 883, 884, 885, 886, 887, 888, 889, 890, 891, 892, 893, 894, 895, 896, 897, 898, 899, 900, 901, 902, 903, 904, 905, 906, 907, 908, 909, 910, 911, 912, 913, 75, 78, 80, 914, 253, 254, 255, 915, 916, 917, 918, 74, 919, 920, 921, 922, 76, 923, 341, 342, 343, 344, 127, 345, 924, 925, 926, 927, 928, 929, 930, 931, 932, 933, 934, 935, 936, 937, 938, 939, 940, 941, 942, 943, 944, 945, 946, 947, 948, 949, 950, 951, 952, 953, 132, 133, 134, 135, 136, 137, 138, 139, 140, 141, 142, 954, 955, 956, 957, 958, 959, 960, 961, 962, 963, 964, 965, 966, 967, 968, 969, 970, 971, 972, 973, 974, 975, 976, 1057, 1058, 1059, 1060, 1061, 1062, 1063, 1064, 1306, 1307, 1308, 1309, 1310, 1311, 1312, 1313, 1341, 1342, 1343, 1344, 1345, 1346, 1347, 1348, 1349, 1350, 1351, 1352, 1353, 1354, 1355, 1333, 1334, 1339, 1340] (by decide +kernel) (by decide +kernel)) (goodIn_sub (fun _ h => List.mem_append_left _ (List.mem_append_left _ (List.mem_append_left _ (List.mem_append_left _ (List.mem_append_right _ h))))) (by decide +kernel))) (goodIn_sub (fun _ h => List.mem_append_left _ (List.mem_append_left _ (List.mem_append_left _ (List.mem_append_left _ (List.mem_append_left _ (List.mem_append_right _ h)))))) (by decide +kernel))
set_option maxRecDepth 20000 in
theorem gL_law_L_run : GoodIn wsL_law (va_wsS RL 277 yL_run wsL_run) := goodIn_app (goodIn_of _ (by decide +kernel)) ggL_law_L_run
set_option maxRecDepth 20000 in
theorem ggL_law_X8_run : GoodIn wsL_law wsX8_run := goodIn_r _ [1068, 981, 982, 983, 984, 5, 985, 986, 987, 988, 765, 989, 103, 97, 990, 991, 992, 993, 994, 995, 996, 997, 102, 147, 148, 149, 150, 151, 152, 998, 999, 1000, 1001, 1002, 1003, 1004, 1005, 1006, 1007, 1008, 1009, 1010, 1011, 1012, 1013, 1014, 1015, 1016, 260, 261, 262, 1017, 354, 355, 356, 1018, 1019, 1020, 1021, 1022, 1023, 1024, 1025, 1026, 1027, 1028, 1029, 1030, 1031, 1032, 1033, 165, 166, 167, 1034, 1035, 1036, 1037, 156, 157, 158, 159, 160, 1314, 1315, 1316, 1317, 1318, 1319, 1320, 1321, 1322, 1323, 1324, 1325, 1326, 1327, 1328, 1329, 1330, 1331, 1332] (by decide +kernel) (by decide +kernel)
set_option maxRecDepth 20000 in
theorem gL_law_X8_run : GoodIn wsL_law (wsV RL 280 RX8 yX8_run wsX8_run) := goodIn_app (goodIn_of _ (by decide +kernel)) ggL_law_X8_run
set_option maxRecDepth 20000 in
theorem ggL_law_L_viewHas : GoodIn wsL_law wsL_viewHas := goodIn_ca (goodIn_ca (goodIn_r _ [1071, 112, 1072, 1073, 1074, 2, 1075, 1076, 1077, 1078, 1079, 121, 122, 17, 123, 124, 125, 126, 127, 128, 129, 130, 1080, 1081, 1082, 21, 1083, 50, 1084, 136, 137, 19, 138, 44, 45, 1306, 1307, 1308, 1309, 1310, 1311, 1312, 1313, 1335, 1333, 1334] (by decide +kernel) (by decide +kernel)) (goodIn_sub (fun _ h => List.mem_append_left _ (List.mem_append_left _ (List.mem_append_left _ (List.mem_append_left _ (List.mem_append_left _ (List.mem_append_left _ (List.mem_append_left _ (List.mem_append_left _ (List.mem_append_right _ h))))))))) (by decide +kernel))) (goodIn_sub (fun _ h => List.mem_append_left _ (List.mem_append_left _ (List.mem_append_left _ (List.mem_append_left _ (List.mem_append_left _ (List.mem_append_left _ (List.mem_append_left _ (List.mem_append_right _ h)))))))) (by decide +kernel))
set_option maxRecDepth 20000 in
theorem gL_law_L_viewHas : GoodIn wsL_law (va_wsS RL 281 yL_viewHas wsL_viewHas) := goodIn_app (goodIn_of _ (by decide +kernel)) ggL_law_L_viewHas
set_option maxRecDepth 20000 in
theorem ggL_law_X8_viewHas : GoodIn wsL_law wsX8_viewHas := goodIn_r _ [1088, 1089, 196, 197, 5, 198, 97, 147, 148, 149, 150, 151, 152, 153, 154, 155, 156, 157, 158, 159, 160, 165, 166, 167, 1314, 1315, 1316, 1317, 1318, 1319, 1320, 1321, 1322, 1323, 1324, 1325, 1326, 1327, 1328, 1329, 1330, 1331, 1332] (by decide +kernel) (by decide +kernel)
set_option maxRecDepth 20000 in
theorem gL_law_X8_viewHas : GoodIn wsL_law (wsV RL 283 RX8 yX8_viewHas wsX8_viewHas) := goodIn_app (goodIn_of _ (by decide +kernel)) ggL_law_X8_viewHas
set_option maxRecDepth 20000 in
theorem ggL_law_L_viewRefuses : GoodIn wsL_law wsL_viewRefuses := goodIn_ca (goodIn_ca (goodIn_ca (goodIn_ca (goodIn_ca (goodIn_ca (goodIn_r _ [1092, 112, 1093, 1094, 1095, 2, 1096, 27, 117, 118, 119, 120, 121, 122, 15, 1076, 1077, 1078, 1079, 17, 270, 271, 272, 126, 127, 123, 124, 125, 128, 129, 130, 206, 207, 208, 19, 209, 44, 45, 210, 211, 212, 213, 214, 215, 216, 392, 393, 394, 395, 1097, 1098, 1099, 1100, 1101, 1102, 1103, 1104, 1105, 1106, 1107, 1108, 21, 1109, 1110, 1111, 1112, 1113, 1114, 1115, 1116, 1117, 1118, 1119, 1120, 1121, 1122, 1123, 1124, 1125, 1126, 1127, 1128, 1129, 1130, 50, 1131, 1132, 1133, 1134, 12, 13, 1135, 1136, 1137, 1138, 1139, 1140, 1141, 1142, 1143, 285, 1144, 136, 137, 138, 1145, 1146, 1147, 1148, 1149, 1150, 502, 1151, 180, 181, 182, 135, 139, 140, 141, 142, 455, 456, 457, 458, 1306, 1307, 1308, 1309, 1310, 1311, 1312, 1313, 1333, 1334, 1359, 1360, 1361, 1362, 1335] (by decide +kernel) (by decide +kernel)) (goodIn_sub (fun _ h => List.mem_append_left _ (List.mem_append_left _ (List.mem_append_left _ (List.mem_append_left _ (List.mem_append_left _ (List.mem_append_left _ (List.mem_append_left _ (List.mem_append_left _ (List.mem_append_right _ h))))))))) (by decide +kernel))) (goodIn_sub (fun _ h => List.mem_append_left _ (List.mem_append_left _ (List.mem_append_left _ (List.mem_append_left _ (List.mem_append_left _ (List.mem_append_left _ (List.mem_append_left _ (List.mem_append_right _ h)))))))) (by decide +kernel))) (goodIn_sub (fun _ h => List.mem_append_left _ (List.mem_append_left _ (List.mem_append_left _ (List.mem_append_right _ h)))) (by decide +kernel))) (goodIn_sub (fun _ h => List.mem_append_left _ (List.mem_append_left _ (List.mem_append_right _ h))) (by decide +kernel))) (goodIn_sub (fun _ h => List.mem_append_left _ (List.mem_append_right _ h)) (by decide +kernel))) (goodIn_sub (fun _ h => List.mem_append_right _ h) (by decide +kernel))
set_option maxRecDepth 20000 in
theorem gL_law_L_viewRefuses : GoodIn wsL_law (va_wsS RL 284 yL_viewRefuses wsL_viewRefuses) := goodIn_app (goodIn_of _ (by decide +kernel)) ggL_law_L_viewRefuses
set_option maxRecDepth 20000 in
theorem ggL_law_X8_viewRefuses : GoodIn wsL_law wsX8_viewRefuses := goodIn_r _ [1155, 97, 147, 148, 5, 149, 150, 151, 152, 153, 154, 155, 156, 157, 158, 159, 160, 221, 222, 223, 1314, 1315, 1316, 1317, 1318, 1319, 1320, 1321, 1322, 1323, 1324, 1325, 1326, 1327, 1328, 1329, 1330, 1331, 1332] (by decide +kernel) (by decide +kernel)
set_option maxRecDepth 20000 in
theorem gL_law_X8_viewRefuses : GoodIn wsL_law (wsV RL 286 RX8 yX8_viewRefuses wsX8_viewRefuses) := goodIn_app (goodIn_of _ (by decide +kernel)) ggL_law_X8_viewRefuses
set_option maxRecDepth 20000 in
theorem ggL_law_L_walkRefuses : GoodIn wsL_law wsL_walkRefuses := goodIn_ca (goodIn_ca (goodIn_ca (goodIn_ca (goodIn_ca (goodIn_r _ [1158, 112, 1159, 1160, 1161, 2, 1162, 284, 27, 117, 118, 119, 120, 121, 122, 15, 270, 271, 272, 126, 127, 392, 393, 394, 19, 395, 44, 45, 1163, 1164, 1165, 1166, 1129, 1130, 206, 207, 208, 209, 210, 211, 212, 213, 214, 215, 216, 1167, 1132, 1133, 1134, 12, 13, 1135, 1136, 1137, 1138, 1139, 1140, 1141, 1142, 1143, 285, 1144, 136, 137, 138, 1145, 1146, 1147, 1148, 1149, 1111, 1150, 502, 1151, 180, 181, 182, 135, 139, 140, 141, 142, 1306, 1307, 1308, 1309, 1310, 1311, 1312, 1313, 1333, 1334, 1359, 1360, 1361, 1362] (by decide +kernel) (by decide +kernel)) (goodIn_sub (fun _ h => List.mem_append_left _ (List.mem_append_left _ (List.mem_append_left _ (List.mem_append_left _ (List.mem_append_left _ (List.mem_append_left _ (List.mem_append_left _ (List.mem_append_left _ (List.mem_append_right _ h))))))))) (by decide +kernel))) (goodIn_sub (fun _ h => List.mem_append_left _ (List.mem_append_left _ (List.mem_append_left _ (List.mem_append_left _ (List.mem_append_left _ (List.mem_append_left _ (List.mem_append_left _ (List.mem_append_right _ h)))))))) (by decide +kernel))) (goodIn_sub (fun _ h => List.mem_append_left _ (List.mem_append_left _ (List.mem_append_right _ h))) (by decide +kernel))) (goodIn_sub (fun _ h => List.mem_append_left _ (List.mem_append_right _ h)) (by decide +kernel))) (goodIn_sub (fun _ h => List.mem_append_right _ h) (by decide +kernel))
set_option maxRecDepth 20000 in
theorem gL_law_L_walkRefuses : GoodIn wsL_law (va_wsS RL 287 yL_walkRefuses wsL_walkRefuses) := goodIn_app (goodIn_of _ (by decide +kernel)) ggL_law_L_walkRefuses
set_option maxRecDepth 20000 in
theorem ggL_law_X8_walkRefuses : GoodIn wsL_law wsX8_walkRefuses := goodIn_r _ [1171, 97, 147, 148, 5, 149, 150, 151, 152, 156, 157, 158, 159, 160, 221, 222, 223, 1314, 1315, 1316, 1317, 1318, 1319, 1320, 1321, 1322, 1323, 1324, 1325, 1326, 1327, 1328, 1329, 1330, 1331, 1332] (by decide +kernel) (by decide +kernel)
set_option maxRecDepth 20000 in
theorem gL_law_X8_walkRefuses : GoodIn wsL_law (wsV RL 289 RX8 yX8_walkRefuses wsX8_walkRefuses) := goodIn_app (goodIn_of _ (by decide +kernel)) ggL_law_X8_walkRefuses
set_option maxRecDepth 20000 in
theorem ggL_law_L_nullRefuses : GoodIn wsL_law wsL_nullRefuses := goodIn_ca (goodIn_ca (goodIn_ca (goodIn_r _ [1174, 112, 1175, 1176, 1177, 2, 1178, 27, 117, 118, 119, 120, 121, 122, 15, 270, 271, 272, 126, 127, 392, 393, 394, 19, 395, 44, 45, 1179, 1180, 1181, 340, 341, 342, 343, 344, 345, 422, 423, 424, 425, 455, 456, 457, 458, 1306, 1307, 1308, 1309, 1310, 1311, 1312, 1313, 1333, 1334] (by decide +kernel) (by decide +kernel)) (goodIn_sub (fun _ h => List.mem_append_left _ (List.mem_append_left _ (List.mem_append_left _ (List.mem_append_left _ (List.mem_append_left _ (List.mem_append_left _ (List.mem_append_left _ (List.mem_append_left _ (List.mem_append_right _ h))))))))) (by decide +kernel))) (goodIn_sub (fun _ h => List.mem_append_left _ (List.mem_append_left _ (List.mem_append_left _ (List.mem_append_left _ (List.mem_append_left _ (List.mem_append_left _ (List.mem_append_left _ (List.mem_append_right _ h)))))))) (by decide +kernel))) (goodIn_sub (fun _ h => List.mem_append_left _ (List.mem_append_left _ (List.mem_append_left _ (List.mem_append_left _ (List.mem_append_left _ (List.mem_append_right _ h)))))) (by decide +kernel))
set_option maxRecDepth 20000 in
theorem gL_law_L_nullRefuses : GoodIn wsL_law (va_wsS RL 290 yL_nullRefuses wsL_nullRefuses) := goodIn_app (goodIn_of _ (by decide +kernel)) ggL_law_L_nullRefuses
set_option maxRecDepth 20000 in
theorem ggL_law_X8_nullRefuses : GoodIn wsL_law wsX8_nullRefuses := goodIn_r _ [1185, 147, 148, 5, 149, 150, 151, 152, 156, 157, 158, 159, 160, 1314, 1315, 1316, 1317, 1318, 1319, 1320, 1321, 1322, 1323, 1324, 1325, 1326, 1327, 1328, 1329, 1330, 1331, 1332] (by decide +kernel) (by decide +kernel)
set_option maxRecDepth 20000 in
theorem gL_law_X8_nullRefuses : GoodIn wsL_law (wsV RL 292 RX8 yX8_nullRefuses wsX8_nullRefuses) := goodIn_app (goodIn_of _ (by decide +kernel)) ggL_law_X8_nullRefuses
set_option maxRecDepth 20000 in
theorem ggL_law_L_lawErrors : GoodIn wsL_law wsL_lawErrors := goodIn_ca (goodIn_ca (goodIn_r _ [1188, 112, 1189, 1190, 1191, 2, 1192, 39, 117, 118, 119, 120, 121, 122, 15, 1193, 1194, 1195, 38, 1196, 1197, 1198, 1199, 1200, 1201, 1202, 1203, 1204, 88, 89, 1205, 1206, 1207, 1208, 393, 394, 19, 395, 44, 45, 1209, 341, 342, 343, 344, 127, 345, 1210, 1211, 1212, 1213, 1214, 456, 457, 458, 1215, 1216, 1217, 1218, 90, 1219, 1220, 1221, 1222, 1223, 207, 208, 209, 210, 211, 212, 213, 214, 215, 216, 1224, 1225, 1226, 1227, 1228, 1229, 1230, 1231, 1232, 1233, 1234, 1235, 1236, 423, 424, 425, 1237, 1238, 1239, 1240, 1306, 1307, 1308, 1309, 1310, 1311, 1312, 1313, 1356, 1357, 1358, 1333, 1334] (by decide +kernel) (by decide +kernel)) (goodIn_sub (fun _ h => List.mem_append_left _ (List.mem_append_left _ (List.mem_append_left _ (List.mem_append_left _ (List.mem_append_left _ (List.mem_append_left _ (List.mem_append_left _ (List.mem_append_left _ (List.mem_append_right _ h))))))))) (by decide +kernel))) (goodIn_sub (fun _ h => List.mem_append_left _ (List.mem_append_left _ (List.mem_append_left _ (List.mem_append_left _ (List.mem_append_left _ (List.mem_append_right _ h)))))) (by decide +kernel))
set_option maxRecDepth 20000 in
theorem gL_law_L_lawErrors : GoodIn wsL_law (va_wsS RL 293 yL_lawErrors wsL_lawErrors) := goodIn_app (goodIn_of _ (by decide +kernel)) ggL_law_L_lawErrors
set_option maxRecDepth 20000 in
theorem ggL_law_X8_lawErrors : GoodIn wsL_law wsX8_lawErrors := goodIn_r _ [1244, 97, 104, 105, 106, 147, 148, 5, 149, 150, 151, 152, 156, 157, 158, 159, 160, 1245, 1246, 1247, 1248, 260, 261, 262, 1249, 1250, 1251, 1252, 357, 358, 359, 360, 361, 362, 1253, 1254, 1255, 1256, 354, 355, 356, 1257, 1258, 1259, 1260, 1261, 1262, 1263, 1264, 430, 431, 432, 1265, 1266, 1267, 1268, 221, 222, 223, 1269, 1270, 1271, 1272, 1314, 1315, 1316, 1317, 1318, 1319, 1320, 1321, 1322, 1323, 1324, 1325, 1326, 1327, 1328, 1329, 1330, 1331, 1332] (by decide +kernel) (by decide +kernel)
set_option maxRecDepth 20000 in
theorem gL_law_X8_lawErrors : GoodIn wsL_law (wsV RL 295 RX8 yX8_lawErrors wsX8_lawErrors) := goodIn_app (goodIn_of _ (by decide +kernel)) ggL_law_X8_lawErrors
set_option maxRecDepth 20000 in
theorem ggL_law_X7_familyErrors : GoodIn wsL_law wsX7_familyErrors := goodIn_ca (goodIn_r _ [1276, 25, 1277, 1278, 1279, 24, 1280, 58, 56, 1281, 688, 689, 690, 691, 692, 693, 694, 695, 696, 697, 698, 678, 423, 424, 19, 425, 344, 127, 44, 345, 45, 699, 700, 701, 702, 57, 703, 253, 254, 255, 644, 341, 342, 343, 507, 456, 457, 458, 1306, 1307, 1308, 1309, 1310, 1311, 1312, 1313, 1336, 1337, 1338, 1333, 1334] (by decide +kernel) (by decide +kernel)) (goodIn_sub (fun _ h => List.mem_append_left _ (List.mem_append_left _ (List.mem_append_left _ (List.mem_append_left _ (List.mem_append_left _ (List.mem_append_right _ h)))))) (by decide +kernel))
set_option maxRecDepth 20000 in
theorem gL_law_X7_familyErrors : GoodIn wsL_law (wsV RL 296 RX7 yX7_familyErrors wsX7_familyErrors) := goodIn_app (goodIn_of _ (by decide +kernel)) ggL_law_X7_familyErrors
set_option maxRecDepth 20000 in
theorem ggL_law_X8_familyErrors : GoodIn wsL_law wsX8_familyErrors := goodIn_r _ [1285, 160, 107, 99, 104, 719, 720, 721, 5, 722, 260, 261, 262, 430, 431, 432, 715, 716, 717, 718, 101, 357, 358, 359, 360, 361, 362, 1314, 1315, 1316, 1317, 1318, 1319, 1320, 1321, 1322, 1323, 1324, 1325, 1326, 1327, 1328, 1329, 1330, 1331, 1332] (by decide +kernel) (by decide +kernel)
set_option maxRecDepth 20000 in
theorem gL_law_X8_familyErrors : GoodIn wsL_law (wsV RL 299 RX8 yX8_familyErrors wsX8_familyErrors) := goodIn_app (goodIn_of _ (by decide +kernel)) ggL_law_X8_familyErrors
set_option maxRecDepth 20000 in
theorem ggL_law_X7_meanSize : GoodIn wsL_law wsX7_meanSize := goodIn_r _ [1289, 15, 1290, 206, 207, 208, 19, 209, 44, 45, 210, 211, 212, 213, 214, 215, 216, 1306, 1307, 1308, 1309, 1310, 1311, 1312, 1313, 1333, 1334] (by decide +kernel) (by decide +kernel)
set_option maxRecDepth 20000 in
theorem gL_law_X7_meanSize : GoodIn wsL_law (wsV RL 300 RX7 yX7_meanSize wsX7_meanSize) := goodIn_app (goodIn_of _ (by decide +kernel)) ggL_law_X7_meanSize
set_option maxRecDepth 20000 in
theorem ggL_law_X8_meanSize : GoodIn wsL_law wsX8_meanSize := goodIn_r _ [1294, 160, 97, 1295, 221, 222, 5, 223, 1314, 1315, 1316, 1317, 1318, 1319, 1320, 1321, 1322, 1323, 1324, 1325, 1326, 1327, 1328, 1329, 1330, 1331, 1332] (by decide +kernel) (by decide +kernel)
set_option maxRecDepth 20000 in
theorem gL_law_X8_meanSize : GoodIn wsL_law (wsV RL 304 RX8 yX8_meanSize wsX8_meanSize) := goodIn_app (goodIn_of _ (by decide +kernel)) ggL_law_X8_meanSize
set_option maxRecDepth 20000 in
theorem ggL_law_X7_nothingShare : GoodIn wsL_law wsX7_nothingShare := goodIn_r _ [1299, 1300, 471, 472, 473, 2, 474, 15, 194, 136, 137, 19, 138, 44, 45, 1306, 1307, 1308, 1309, 1310, 1311, 1312, 1313, 1333, 1334] (by decide +kernel) (by decide +kernel)
set_option maxRecDepth 20000 in
theorem gL_law_X7_nothingShare : GoodIn wsL_law (wsV RL 305 RX7 yX7_nothingShare wsX7_nothingShare) := goodIn_app (goodIn_of _ (by decide +kernel)) ggL_law_X7_nothingShare
set_option maxRecDepth 20000 in
theorem ggL_law_X8_nothingShare : GoodIn wsL_law wsX8_nothingShare := goodIn_r _ [1304, 160, 1305, 479, 480, 481, 5, 482, 97, 1314, 1315, 1316, 1317, 1318, 1319, 1320, 1321, 1322, 1323, 1324, 1325, 1326, 1327, 1328, 1329, 1330, 1331, 1332] (by decide +kernel) (by decide +kernel)
set_option maxRecDepth 20000 in
theorem gL_law_X8_nothingShare : GoodIn wsL_law (wsV RL 309 RX8 yX8_nothingShare wsX8_nothingShare) := goodIn_app (goodIn_of _ (by decide +kernel)) ggL_law_X8_nothingShare
theorem dL_law_0 : decode cL_law 0 = .ok (.new 8, 3) := by decide +kernel
theorem dL_law_3 : decode cL_law 3 = .ok (.dup, 1) := by decide +kernel
theorem dL_law_4 : decode cL_law 4 = .ok (.invokespecial 134, 3) := by decide +kernel
theorem dL_law_7 : decode cL_law 7 = .ok (.astore_n 1, 1) := by decide +kernel
theorem dL_law_8 : decode cL_law 8 = .ok (.new 135, 3) := by decide +kernel
theorem dL_law_11 : decode cL_law 11 = .ok (.dup, 1) := by decide +kernel
theorem dL_law_12 : decode cL_law 12 = .ok (.invokespecial 137, 3) := by decide +kernel
theorem dL_law_15 : decode cL_law 15 = .ok (.astore_n 2, 1) := by decide +kernel
theorem dL_law_16 : decode cL_law 16 = .ok (.iconst 1, 1) := by decide +kernel
theorem dL_law_17 : decode cL_law 17 = .ok (.newarray .long, 2) := by decide +kernel
theorem dL_law_19 : decode cL_law 19 = .ok (.astore_n 3, 1) := by decide +kernel
theorem dL_law_20 : decode cL_law 20 = .ok (.iconst 0, 1) := by decide +kernel
theorem dL_law_21 : decode cL_law 21 = .ok (.istore 4, 2) := by decide +kernel
theorem dL_law_23 : decode cL_law 23 = .ok (.iload 4, 2) := by decide +kernel
theorem dL_law_25 : decode cL_law 25 = .ok (.aload_n 0, 1) := by decide +kernel
theorem dL_law_26 : decode cL_law 26 = .ok (.arraylength, 1) := by decide +kernel
theorem dL_law_27 : decode cL_law 27 = .ok (.iconst 5, 1) := by decide +kernel
theorem dL_law_28 : decode cL_law 28 = .ok (.isub, 1) := by decide +kernel
theorem dL_law_29 : decode cL_law 29 = .ok (.if_icmp .gt 2883, 3) := by decide +kernel
theorem dL_law_32 : decode cL_law 32 = .ok (.aload_n 0, 1) := by decide +kernel
theorem dL_law_33 : decode cL_law 33 = .ok (.iload 4, 2) := by decide +kernel
theorem dL_law_35 : decode cL_law 35 = .ok (.iaload, 1) := by decide +kernel
theorem dL_law_36 : decode cL_law 36 = .ok (.bipush 63, 2) := by decide +kernel
theorem dL_law_38 : decode cL_law 38 = .ok (.iand, 1) := by decide +kernel
theorem dL_law_39 : decode cL_law 39 = .ok (.tableswitch 2867 0 47 #[205, 280, 355, 430, 486, 542, 598, 690, 758, 814, 870, 945, 1020, 1095, 1163, 1243, 1318, 1393, 1468, 1524, 1592, 1655, 1718, 1781, 1794, 1807, 1820, 1876, 1944, 2000, 2063, 2076, 2089, 2145, 2233, 2246, 2259, 2315, 2328, 2341, 2385, 2460, 2547, 2615, 2690, 2770, 2783, 2824], 205) := by decide +kernel
theorem dL_law_244 : decode cL_law 244 = .ok (.aload_n 1, 1) := by decide +kernel
theorem dL_law_245 : decode cL_law 245 = .ok (.aload_n 0, 1) := by decide +kernel
theorem dL_law_246 : decode cL_law 246 = .ok (.iload 4, 2) := by decide +kernel
theorem dL_law_248 : decode cL_law 248 = .ok (.iconst 1, 1) := by decide +kernel
theorem dL_law_249 : decode cL_law 249 = .ok (.iadd, 1) := by decide +kernel
theorem dL_law_250 : decode cL_law 250 = .ok (.iaload, 1) := by decide +kernel
theorem dL_law_251 : decode cL_law 251 = .ok (.aload_n 0, 1) := by decide +kernel
theorem dL_law_252 : decode cL_law 252 = .ok (.iload 4, 2) := by decide +kernel
theorem dL_law_254 : decode cL_law 254 = .ok (.iconst 2, 1) := by decide +kernel
theorem dL_law_255 : decode cL_law 255 = .ok (.iadd, 1) := by decide +kernel
theorem dL_law_256 : decode cL_law 256 = .ok (.iaload, 1) := by decide +kernel
theorem dL_law_257 : decode cL_law 257 = .ok (.aload_n 3, 1) := by decide +kernel
theorem dL_law_258 : decode cL_law 258 = .ok (.invokestatic 138, 3) := by decide +kernel
theorem dL_law_261 : decode cL_law 261 = .ok (.istore 5, 2) := by decide +kernel
theorem dL_law_263 : decode cL_law 263 = .ok (.aload_n 2, 1) := by decide +kernel
theorem dL_law_264 : decode cL_law 264 = .ok (.aload_n 0, 1) := by decide +kernel
theorem dL_law_265 : decode cL_law 265 = .ok (.iload 4, 2) := by decide +kernel
theorem dL_law_267 : decode cL_law 267 = .ok (.iconst 1, 1) := by decide +kernel
theorem dL_law_268 : decode cL_law 268 = .ok (.iadd, 1) := by decide +kernel
theorem dL_law_269 : decode cL_law 269 = .ok (.iaload, 1) := by decide +kernel
theorem dL_law_270 : decode cL_law 270 = .ok (.aload_n 0, 1) := by decide +kernel
theorem dL_law_271 : decode cL_law 271 = .ok (.iload 4, 2) := by decide +kernel
theorem dL_law_273 : decode cL_law 273 = .ok (.iconst 2, 1) := by decide +kernel
theorem dL_law_274 : decode cL_law 274 = .ok (.iadd, 1) := by decide +kernel
theorem dL_law_275 : decode cL_law 275 = .ok (.iaload, 1) := by decide +kernel
theorem dL_law_276 : decode cL_law 276 = .ok (.invokevirtual 143, 3) := by decide +kernel
theorem dL_law_279 : decode cL_law 279 = .ok (.istore 6, 2) := by decide +kernel
theorem dL_law_281 : decode cL_law 281 = .ok (.aload_n 2, 1) := by decide +kernel
theorem dL_law_282 : decode cL_law 282 = .ok (.invokevirtual 144, 3) := by decide +kernel
theorem dL_law_285 : decode cL_law 285 = .ok (.iload 5, 2) := by decide +kernel
theorem dL_law_287 : decode cL_law 287 = .ok (.if_icmp .eq 5, 3) := by decide +kernel
theorem dL_law_290 : decode cL_law 290 = .ok (.iconst 0, 1) := by decide +kernel
theorem dL_law_291 : decode cL_law 291 = .ok (.ireturn, 1) := by decide +kernel
theorem dL_law_292 : decode cL_law 292 = .ok (.iload 5, 2) := by decide +kernel
theorem dL_law_294 : decode cL_law 294 = .ok (.ifCond .ne 22, 3) := by decide +kernel
theorem dL_law_297 : decode cL_law 297 = .ok (.aload_n 3, 1) := by decide +kernel
theorem dL_law_298 : decode cL_law 298 = .ok (.iconst 0, 1) := by decide +kernel
theorem dL_law_299 : decode cL_law 299 = .ok (.laload, 1) := by decide +kernel
theorem dL_law_300 : decode cL_law 300 = .ok (.iload 6, 2) := by decide +kernel
theorem dL_law_302 : decode cL_law 302 = .ok (.ifCond .eq 7, 3) := by decide +kernel
theorem dL_law_305 : decode cL_law 305 = .ok (.lconst 1, 1) := by decide +kernel
theorem dL_law_306 : decode cL_law 306 = .ok (.goto 4, 3) := by decide +kernel
theorem dL_law_309 : decode cL_law 309 = .ok (.lconst 0, 1) := by decide +kernel
theorem dL_law_310 : decode cL_law 310 = .ok (.lcmp, 1) := by decide +kernel
theorem dL_law_311 : decode cL_law 311 = .ok (.ifCond .eq 5, 3) := by decide +kernel
theorem dL_law_314 : decode cL_law 314 = .ok (.iconst 0, 1) := by decide +kernel
theorem dL_law_315 : decode cL_law 315 = .ok (.ireturn, 1) := by decide +kernel
theorem dL_law_316 : decode cL_law 316 = .ok (.goto 2590, 3) := by decide +kernel
theorem dL_law_319 : decode cL_law 319 = .ok (.aload_n 1, 1) := by decide +kernel
theorem dL_law_320 : decode cL_law 320 = .ok (.aload_n 0, 1) := by decide +kernel
theorem dL_law_321 : decode cL_law 321 = .ok (.iload 4, 2) := by decide +kernel
theorem dL_law_323 : decode cL_law 323 = .ok (.iconst 1, 1) := by decide +kernel
theorem dL_law_324 : decode cL_law 324 = .ok (.iadd, 1) := by decide +kernel
theorem dL_law_325 : decode cL_law 325 = .ok (.iaload, 1) := by decide +kernel
theorem dL_law_326 : decode cL_law 326 = .ok (.aload_n 0, 1) := by decide +kernel
theorem dL_law_327 : decode cL_law 327 = .ok (.iload 4, 2) := by decide +kernel
theorem dL_law_329 : decode cL_law 329 = .ok (.iconst 2, 1) := by decide +kernel
theorem dL_law_330 : decode cL_law 330 = .ok (.iadd, 1) := by decide +kernel
theorem dL_law_331 : decode cL_law 331 = .ok (.iaload, 1) := by decide +kernel
theorem dL_law_332 : decode cL_law 332 = .ok (.aload_n 3, 1) := by decide +kernel
theorem dL_law_333 : decode cL_law 333 = .ok (.invokestatic 147, 3) := by decide +kernel
theorem dL_law_336 : decode cL_law 336 = .ok (.istore 5, 2) := by decide +kernel
theorem dL_law_338 : decode cL_law 338 = .ok (.aload_n 2, 1) := by decide +kernel
theorem dL_law_339 : decode cL_law 339 = .ok (.aload_n 0, 1) := by decide +kernel
theorem dL_law_340 : decode cL_law 340 = .ok (.iload 4, 2) := by decide +kernel
theorem dL_law_342 : decode cL_law 342 = .ok (.iconst 1, 1) := by decide +kernel
theorem dL_law_343 : decode cL_law 343 = .ok (.iadd, 1) := by decide +kernel
theorem dL_law_344 : decode cL_law 344 = .ok (.iaload, 1) := by decide +kernel
theorem dL_law_345 : decode cL_law 345 = .ok (.aload_n 0, 1) := by decide +kernel
theorem dL_law_346 : decode cL_law 346 = .ok (.iload 4, 2) := by decide +kernel
theorem dL_law_348 : decode cL_law 348 = .ok (.iconst 2, 1) := by decide +kernel
theorem dL_law_349 : decode cL_law 349 = .ok (.iadd, 1) := by decide +kernel
theorem dL_law_350 : decode cL_law 350 = .ok (.iaload, 1) := by decide +kernel
theorem dL_law_351 : decode cL_law 351 = .ok (.invokevirtual 149, 3) := by decide +kernel
theorem dL_law_354 : decode cL_law 354 = .ok (.istore 6, 2) := by decide +kernel
theorem dL_law_356 : decode cL_law 356 = .ok (.aload_n 2, 1) := by decide +kernel
theorem dL_law_357 : decode cL_law 357 = .ok (.invokevirtual 144, 3) := by decide +kernel
theorem dL_law_360 : decode cL_law 360 = .ok (.iload 5, 2) := by decide +kernel
theorem dL_law_362 : decode cL_law 362 = .ok (.if_icmp .eq 5, 3) := by decide +kernel
theorem dL_law_365 : decode cL_law 365 = .ok (.iconst 0, 1) := by decide +kernel
theorem dL_law_366 : decode cL_law 366 = .ok (.ireturn, 1) := by decide +kernel
theorem dL_law_367 : decode cL_law 367 = .ok (.iload 5, 2) := by decide +kernel
theorem dL_law_369 : decode cL_law 369 = .ok (.ifCond .ne 22, 3) := by decide +kernel
theorem dL_law_372 : decode cL_law 372 = .ok (.aload_n 3, 1) := by decide +kernel
theorem dL_law_373 : decode cL_law 373 = .ok (.iconst 0, 1) := by decide +kernel
theorem dL_law_374 : decode cL_law 374 = .ok (.laload, 1) := by decide +kernel
theorem dL_law_375 : decode cL_law 375 = .ok (.iload 6, 2) := by decide +kernel
theorem dL_law_377 : decode cL_law 377 = .ok (.ifCond .eq 7, 3) := by decide +kernel
theorem dL_law_380 : decode cL_law 380 = .ok (.lconst 1, 1) := by decide +kernel
theorem dL_law_381 : decode cL_law 381 = .ok (.goto 4, 3) := by decide +kernel
theorem dL_law_384 : decode cL_law 384 = .ok (.lconst 0, 1) := by decide +kernel
theorem dL_law_385 : decode cL_law 385 = .ok (.lcmp, 1) := by decide +kernel
theorem dL_law_386 : decode cL_law 386 = .ok (.ifCond .eq 5, 3) := by decide +kernel
theorem dL_law_389 : decode cL_law 389 = .ok (.iconst 0, 1) := by decide +kernel
theorem dL_law_390 : decode cL_law 390 = .ok (.ireturn, 1) := by decide +kernel
theorem dL_law_391 : decode cL_law 391 = .ok (.goto 2515, 3) := by decide +kernel
theorem dL_law_394 : decode cL_law 394 = .ok (.aload_n 1, 1) := by decide +kernel
theorem dL_law_395 : decode cL_law 395 = .ok (.aload_n 0, 1) := by decide +kernel
theorem dL_law_396 : decode cL_law 396 = .ok (.iload 4, 2) := by decide +kernel
theorem dL_law_398 : decode cL_law 398 = .ok (.iconst 1, 1) := by decide +kernel
theorem dL_law_399 : decode cL_law 399 = .ok (.iadd, 1) := by decide +kernel
theorem dL_law_400 : decode cL_law 400 = .ok (.iaload, 1) := by decide +kernel
theorem dL_law_401 : decode cL_law 401 = .ok (.aload_n 0, 1) := by decide +kernel
theorem dL_law_402 : decode cL_law 402 = .ok (.iload 4, 2) := by decide +kernel
theorem dL_law_404 : decode cL_law 404 = .ok (.iconst 2, 1) := by decide +kernel
theorem dL_law_405 : decode cL_law 405 = .ok (.iadd, 1) := by decide +kernel
theorem dL_law_406 : decode cL_law 406 = .ok (.iaload, 1) := by decide +kernel
theorem dL_law_407 : decode cL_law 407 = .ok (.aload_n 3, 1) := by decide +kernel
theorem dL_law_408 : decode cL_law 408 = .ok (.invokestatic 150, 3) := by decide +kernel
theorem dL_law_411 : decode cL_law 411 = .ok (.istore 5, 2) := by decide +kernel
theorem dL_law_413 : decode cL_law 413 = .ok (.aload_n 2, 1) := by decide +kernel
theorem dL_law_414 : decode cL_law 414 = .ok (.aload_n 0, 1) := by decide +kernel
theorem dL_law_415 : decode cL_law 415 = .ok (.iload 4, 2) := by decide +kernel
theorem dL_law_417 : decode cL_law 417 = .ok (.iconst 1, 1) := by decide +kernel
theorem dL_law_418 : decode cL_law 418 = .ok (.iadd, 1) := by decide +kernel
theorem dL_law_419 : decode cL_law 419 = .ok (.iaload, 1) := by decide +kernel
theorem dL_law_420 : decode cL_law 420 = .ok (.aload_n 0, 1) := by decide +kernel
theorem dL_law_421 : decode cL_law 421 = .ok (.iload 4, 2) := by decide +kernel
theorem dL_law_423 : decode cL_law 423 = .ok (.iconst 2, 1) := by decide +kernel
theorem dL_law_424 : decode cL_law 424 = .ok (.iadd, 1) := by decide +kernel
theorem dL_law_425 : decode cL_law 425 = .ok (.iaload, 1) := by decide +kernel
theorem dL_law_426 : decode cL_law 426 = .ok (.invokevirtual 152, 3) := by decide +kernel
theorem dL_law_429 : decode cL_law 429 = .ok (.istore 6, 2) := by decide +kernel
theorem dL_law_431 : decode cL_law 431 = .ok (.aload_n 2, 1) := by decide +kernel
theorem dL_law_432 : decode cL_law 432 = .ok (.invokevirtual 144, 3) := by decide +kernel
theorem dL_law_435 : decode cL_law 435 = .ok (.iload 5, 2) := by decide +kernel
theorem dL_law_437 : decode cL_law 437 = .ok (.if_icmp .eq 5, 3) := by decide +kernel
theorem dL_law_440 : decode cL_law 440 = .ok (.iconst 0, 1) := by decide +kernel
theorem dL_law_441 : decode cL_law 441 = .ok (.ireturn, 1) := by decide +kernel
theorem dL_law_442 : decode cL_law 442 = .ok (.iload 5, 2) := by decide +kernel
theorem dL_law_444 : decode cL_law 444 = .ok (.ifCond .ne 22, 3) := by decide +kernel
theorem dL_law_447 : decode cL_law 447 = .ok (.aload_n 3, 1) := by decide +kernel
theorem dL_law_448 : decode cL_law 448 = .ok (.iconst 0, 1) := by decide +kernel
theorem dL_law_449 : decode cL_law 449 = .ok (.laload, 1) := by decide +kernel
theorem dL_law_450 : decode cL_law 450 = .ok (.iload 6, 2) := by decide +kernel
theorem dL_law_452 : decode cL_law 452 = .ok (.ifCond .eq 7, 3) := by decide +kernel
theorem dL_law_455 : decode cL_law 455 = .ok (.lconst 1, 1) := by decide +kernel
theorem dL_law_456 : decode cL_law 456 = .ok (.goto 4, 3) := by decide +kernel
theorem dL_law_459 : decode cL_law 459 = .ok (.lconst 0, 1) := by decide +kernel
theorem dL_law_460 : decode cL_law 460 = .ok (.lcmp, 1) := by decide +kernel
theorem dL_law_461 : decode cL_law 461 = .ok (.ifCond .eq 5, 3) := by decide +kernel
theorem dL_law_464 : decode cL_law 464 = .ok (.iconst 0, 1) := by decide +kernel
theorem dL_law_465 : decode cL_law 465 = .ok (.ireturn, 1) := by decide +kernel
theorem dL_law_466 : decode cL_law 466 = .ok (.goto 2440, 3) := by decide +kernel
theorem dL_law_469 : decode cL_law 469 = .ok (.aload_n 1, 1) := by decide +kernel
theorem dL_law_470 : decode cL_law 470 = .ok (.aload_n 0, 1) := by decide +kernel
theorem dL_law_471 : decode cL_law 471 = .ok (.iload 4, 2) := by decide +kernel
theorem dL_law_473 : decode cL_law 473 = .ok (.iconst 1, 1) := by decide +kernel
theorem dL_law_474 : decode cL_law 474 = .ok (.iadd, 1) := by decide +kernel
theorem dL_law_475 : decode cL_law 475 = .ok (.iaload, 1) := by decide +kernel
theorem dL_law_476 : decode cL_law 476 = .ok (.aload_n 3, 1) := by decide +kernel
theorem dL_law_477 : decode cL_law 477 = .ok (.invokestatic 153, 3) := by decide +kernel
theorem dL_law_480 : decode cL_law 480 = .ok (.istore 5, 2) := by decide +kernel
theorem dL_law_482 : decode cL_law 482 = .ok (.aload_n 2, 1) := by decide +kernel
theorem dL_law_483 : decode cL_law 483 = .ok (.aload_n 0, 1) := by decide +kernel
theorem dL_law_484 : decode cL_law 484 = .ok (.iload 4, 2) := by decide +kernel
theorem dL_law_486 : decode cL_law 486 = .ok (.iconst 1, 1) := by decide +kernel
theorem dL_law_487 : decode cL_law 487 = .ok (.iadd, 1) := by decide +kernel
theorem dL_law_488 : decode cL_law 488 = .ok (.iaload, 1) := by decide +kernel
theorem dL_law_489 : decode cL_law 489 = .ok (.invokevirtual 156, 3) := by decide +kernel
theorem dL_law_492 : decode cL_law 492 = .ok (.istore 6, 2) := by decide +kernel
theorem dL_law_494 : decode cL_law 494 = .ok (.aload_n 2, 1) := by decide +kernel
theorem dL_law_495 : decode cL_law 495 = .ok (.invokevirtual 144, 3) := by decide +kernel
theorem dL_law_498 : decode cL_law 498 = .ok (.iload 5, 2) := by decide +kernel
theorem dL_law_500 : decode cL_law 500 = .ok (.if_icmp .eq 5, 3) := by decide +kernel
theorem dL_law_503 : decode cL_law 503 = .ok (.iconst 0, 1) := by decide +kernel
theorem dL_law_504 : decode cL_law 504 = .ok (.ireturn, 1) := by decide +kernel
theorem dL_law_505 : decode cL_law 505 = .ok (.iload 5, 2) := by decide +kernel
theorem dL_law_507 : decode cL_law 507 = .ok (.ifCond .ne 15, 3) := by decide +kernel
theorem dL_law_510 : decode cL_law 510 = .ok (.aload_n 3, 1) := by decide +kernel
theorem dL_law_511 : decode cL_law 511 = .ok (.iconst 0, 1) := by decide +kernel
theorem dL_law_512 : decode cL_law 512 = .ok (.laload, 1) := by decide +kernel
theorem dL_law_513 : decode cL_law 513 = .ok (.iload 6, 2) := by decide +kernel
theorem dL_law_515 : decode cL_law 515 = .ok (.i2l, 1) := by decide +kernel
theorem dL_law_516 : decode cL_law 516 = .ok (.lcmp, 1) := by decide +kernel
theorem dL_law_517 : decode cL_law 517 = .ok (.ifCond .eq 5, 3) := by decide +kernel
theorem dL_law_520 : decode cL_law 520 = .ok (.iconst 0, 1) := by decide +kernel
theorem dL_law_521 : decode cL_law 521 = .ok (.ireturn, 1) := by decide +kernel
theorem dL_law_522 : decode cL_law 522 = .ok (.goto 2384, 3) := by decide +kernel
theorem dL_law_525 : decode cL_law 525 = .ok (.aload_n 1, 1) := by decide +kernel
theorem dL_law_526 : decode cL_law 526 = .ok (.aload_n 0, 1) := by decide +kernel
theorem dL_law_527 : decode cL_law 527 = .ok (.iload 4, 2) := by decide +kernel
theorem dL_law_529 : decode cL_law 529 = .ok (.iconst 1, 1) := by decide +kernel
theorem dL_law_530 : decode cL_law 530 = .ok (.iadd, 1) := by decide +kernel
theorem dL_law_531 : decode cL_law 531 = .ok (.iaload, 1) := by decide +kernel
theorem dL_law_532 : decode cL_law 532 = .ok (.aload_n 3, 1) := by decide +kernel
theorem dL_law_533 : decode cL_law 533 = .ok (.invokestatic 157, 3) := by decide +kernel
theorem dL_law_536 : decode cL_law 536 = .ok (.istore 5, 2) := by decide +kernel
theorem dL_law_538 : decode cL_law 538 = .ok (.aload_n 2, 1) := by decide +kernel
theorem dL_law_539 : decode cL_law 539 = .ok (.aload_n 0, 1) := by decide +kernel
theorem dL_law_540 : decode cL_law 540 = .ok (.iload 4, 2) := by decide +kernel
theorem dL_law_542 : decode cL_law 542 = .ok (.iconst 1, 1) := by decide +kernel
theorem dL_law_543 : decode cL_law 543 = .ok (.iadd, 1) := by decide +kernel
theorem dL_law_544 : decode cL_law 544 = .ok (.iaload, 1) := by decide +kernel
theorem dL_law_545 : decode cL_law 545 = .ok (.invokevirtual 159, 3) := by decide +kernel
theorem dL_law_548 : decode cL_law 548 = .ok (.istore 6, 2) := by decide +kernel
theorem dL_law_550 : decode cL_law 550 = .ok (.aload_n 2, 1) := by decide +kernel
theorem dL_law_551 : decode cL_law 551 = .ok (.invokevirtual 144, 3) := by decide +kernel
theorem dL_law_554 : decode cL_law 554 = .ok (.iload 5, 2) := by decide +kernel
theorem dL_law_556 : decode cL_law 556 = .ok (.if_icmp .eq 5, 3) := by decide +kernel
theorem dL_law_559 : decode cL_law 559 = .ok (.iconst 0, 1) := by decide +kernel
theorem dL_law_560 : decode cL_law 560 = .ok (.ireturn, 1) := by decide +kernel
theorem dL_law_561 : decode cL_law 561 = .ok (.iload 5, 2) := by decide +kernel
theorem dL_law_563 : decode cL_law 563 = .ok (.ifCond .ne 15, 3) := by decide +kernel
theorem dL_law_566 : decode cL_law 566 = .ok (.aload_n 3, 1) := by decide +kernel
theorem dL_law_567 : decode cL_law 567 = .ok (.iconst 0, 1) := by decide +kernel
theorem dL_law_568 : decode cL_law 568 = .ok (.laload, 1) := by decide +kernel
theorem dL_law_569 : decode cL_law 569 = .ok (.iload 6, 2) := by decide +kernel
theorem dL_law_571 : decode cL_law 571 = .ok (.i2l, 1) := by decide +kernel
theorem dL_law_572 : decode cL_law 572 = .ok (.lcmp, 1) := by decide +kernel
theorem dL_law_573 : decode cL_law 573 = .ok (.ifCond .eq 5, 3) := by decide +kernel
theorem dL_law_576 : decode cL_law 576 = .ok (.iconst 0, 1) := by decide +kernel
theorem dL_law_577 : decode cL_law 577 = .ok (.ireturn, 1) := by decide +kernel
theorem dL_law_578 : decode cL_law 578 = .ok (.goto 2328, 3) := by decide +kernel
theorem dL_law_581 : decode cL_law 581 = .ok (.aload_n 1, 1) := by decide +kernel
theorem dL_law_582 : decode cL_law 582 = .ok (.aload_n 0, 1) := by decide +kernel
theorem dL_law_583 : decode cL_law 583 = .ok (.iload 4, 2) := by decide +kernel
theorem dL_law_585 : decode cL_law 585 = .ok (.iconst 1, 1) := by decide +kernel
theorem dL_law_586 : decode cL_law 586 = .ok (.iadd, 1) := by decide +kernel
theorem dL_law_587 : decode cL_law 587 = .ok (.iaload, 1) := by decide +kernel
theorem dL_law_588 : decode cL_law 588 = .ok (.aload_n 3, 1) := by decide +kernel
theorem dL_law_589 : decode cL_law 589 = .ok (.invokestatic 160, 3) := by decide +kernel
theorem dL_law_592 : decode cL_law 592 = .ok (.istore 5, 2) := by decide +kernel
theorem dL_law_594 : decode cL_law 594 = .ok (.aload_n 2, 1) := by decide +kernel
theorem dL_law_595 : decode cL_law 595 = .ok (.aload_n 0, 1) := by decide +kernel
theorem dL_law_596 : decode cL_law 596 = .ok (.iload 4, 2) := by decide +kernel
theorem dL_law_598 : decode cL_law 598 = .ok (.iconst 1, 1) := by decide +kernel
theorem dL_law_599 : decode cL_law 599 = .ok (.iadd, 1) := by decide +kernel
theorem dL_law_600 : decode cL_law 600 = .ok (.iaload, 1) := by decide +kernel
theorem dL_law_601 : decode cL_law 601 = .ok (.invokevirtual 162, 3) := by decide +kernel
theorem dL_law_604 : decode cL_law 604 = .ok (.istore 6, 2) := by decide +kernel
theorem dL_law_606 : decode cL_law 606 = .ok (.aload_n 2, 1) := by decide +kernel
theorem dL_law_607 : decode cL_law 607 = .ok (.invokevirtual 144, 3) := by decide +kernel
theorem dL_law_610 : decode cL_law 610 = .ok (.iload 5, 2) := by decide +kernel
theorem dL_law_612 : decode cL_law 612 = .ok (.if_icmp .eq 5, 3) := by decide +kernel
theorem dL_law_615 : decode cL_law 615 = .ok (.iconst 0, 1) := by decide +kernel
theorem dL_law_616 : decode cL_law 616 = .ok (.ireturn, 1) := by decide +kernel
theorem dL_law_617 : decode cL_law 617 = .ok (.iload 5, 2) := by decide +kernel
theorem dL_law_619 : decode cL_law 619 = .ok (.ifCond .ne 15, 3) := by decide +kernel
theorem dL_law_622 : decode cL_law 622 = .ok (.aload_n 3, 1) := by decide +kernel
theorem dL_law_623 : decode cL_law 623 = .ok (.iconst 0, 1) := by decide +kernel
theorem dL_law_624 : decode cL_law 624 = .ok (.laload, 1) := by decide +kernel
theorem dL_law_625 : decode cL_law 625 = .ok (.iload 6, 2) := by decide +kernel
theorem dL_law_627 : decode cL_law 627 = .ok (.i2l, 1) := by decide +kernel
theorem dL_law_628 : decode cL_law 628 = .ok (.lcmp, 1) := by decide +kernel
theorem dL_law_629 : decode cL_law 629 = .ok (.ifCond .eq 5, 3) := by decide +kernel
theorem dL_law_632 : decode cL_law 632 = .ok (.iconst 0, 1) := by decide +kernel
theorem dL_law_633 : decode cL_law 633 = .ok (.ireturn, 1) := by decide +kernel
theorem dL_law_634 : decode cL_law 634 = .ok (.goto 2272, 3) := by decide +kernel
theorem dL_law_637 : decode cL_law 637 = .ok (.aload_n 1, 1) := by decide +kernel
theorem dL_law_638 : decode cL_law 638 = .ok (.aload_n 0, 1) := by decide +kernel
theorem dL_law_639 : decode cL_law 639 = .ok (.iload 4, 2) := by decide +kernel
theorem dL_law_641 : decode cL_law 641 = .ok (.iconst 1, 1) := by decide +kernel
theorem dL_law_642 : decode cL_law 642 = .ok (.iadd, 1) := by decide +kernel
theorem dL_law_643 : decode cL_law 643 = .ok (.iaload, 1) := by decide +kernel
theorem dL_law_644 : decode cL_law 644 = .ok (.aload_n 0, 1) := by decide +kernel
theorem dL_law_645 : decode cL_law 645 = .ok (.iload 4, 2) := by decide +kernel
theorem dL_law_647 : decode cL_law 647 = .ok (.iconst 2, 1) := by decide +kernel
theorem dL_law_648 : decode cL_law 648 = .ok (.iadd, 1) := by decide +kernel
theorem dL_law_649 : decode cL_law 649 = .ok (.iaload, 1) := by decide +kernel
theorem dL_law_650 : decode cL_law 650 = .ok (.aload_n 0, 1) := by decide +kernel
theorem dL_law_651 : decode cL_law 651 = .ok (.iload 4, 2) := by decide +kernel
theorem dL_law_653 : decode cL_law 653 = .ok (.iconst 3, 1) := by decide +kernel
theorem dL_law_654 : decode cL_law 654 = .ok (.iadd, 1) := by decide +kernel
theorem dL_law_655 : decode cL_law 655 = .ok (.iaload, 1) := by decide +kernel
theorem dL_law_656 : decode cL_law 656 = .ok (.aload_n 0, 1) := by decide +kernel
theorem dL_law_657 : decode cL_law 657 = .ok (.iload 4, 2) := by decide +kernel
theorem dL_law_659 : decode cL_law 659 = .ok (.iconst 4, 1) := by decide +kernel
theorem dL_law_660 : decode cL_law 660 = .ok (.iadd, 1) := by decide +kernel
theorem dL_law_661 : decode cL_law 661 = .ok (.iaload, 1) := by decide +kernel
theorem dL_law_662 : decode cL_law 662 = .ok (.aload_n 3, 1) := by decide +kernel
theorem dL_law_663 : decode cL_law 663 = .ok (.invokestatic 163, 3) := by decide +kernel
theorem dL_law_666 : decode cL_law 666 = .ok (.istore 5, 2) := by decide +kernel
theorem dL_law_668 : decode cL_law 668 = .ok (.aload_n 2, 1) := by decide +kernel
theorem dL_law_669 : decode cL_law 669 = .ok (.aload_n 0, 1) := by decide +kernel
theorem dL_law_670 : decode cL_law 670 = .ok (.iload 4, 2) := by decide +kernel
theorem dL_law_672 : decode cL_law 672 = .ok (.iconst 1, 1) := by decide +kernel
theorem dL_law_673 : decode cL_law 673 = .ok (.iadd, 1) := by decide +kernel
theorem dL_law_674 : decode cL_law 674 = .ok (.iaload, 1) := by decide +kernel
theorem dL_law_675 : decode cL_law 675 = .ok (.aload_n 0, 1) := by decide +kernel
theorem dL_law_676 : decode cL_law 676 = .ok (.iload 4, 2) := by decide +kernel
theorem dL_law_678 : decode cL_law 678 = .ok (.iconst 2, 1) := by decide +kernel
theorem dL_law_679 : decode cL_law 679 = .ok (.iadd, 1) := by decide +kernel
theorem dL_law_680 : decode cL_law 680 = .ok (.iaload, 1) := by decide +kernel
theorem dL_law_681 : decode cL_law 681 = .ok (.aload_n 0, 1) := by decide +kernel
theorem dL_law_682 : decode cL_law 682 = .ok (.iload 4, 2) := by decide +kernel
theorem dL_law_684 : decode cL_law 684 = .ok (.iconst 3, 1) := by decide +kernel
theorem dL_law_685 : decode cL_law 685 = .ok (.iadd, 1) := by decide +kernel
theorem dL_law_686 : decode cL_law 686 = .ok (.iaload, 1) := by decide +kernel
theorem dL_law_687 : decode cL_law 687 = .ok (.aload_n 0, 1) := by decide +kernel
theorem dL_law_688 : decode cL_law 688 = .ok (.iload 4, 2) := by decide +kernel
theorem dL_law_690 : decode cL_law 690 = .ok (.iconst 4, 1) := by decide +kernel
theorem dL_law_691 : decode cL_law 691 = .ok (.iadd, 1) := by decide +kernel
theorem dL_law_692 : decode cL_law 692 = .ok (.iaload, 1) := by decide +kernel
theorem dL_law_693 : decode cL_law 693 = .ok (.invokevirtual 166, 3) := by decide +kernel
theorem dL_law_696 : decode cL_law 696 = .ok (.istore 6, 2) := by decide +kernel
theorem dL_law_698 : decode cL_law 698 = .ok (.aload_n 2, 1) := by decide +kernel
theorem dL_law_699 : decode cL_law 699 = .ok (.invokevirtual 144, 3) := by decide +kernel
theorem dL_law_702 : decode cL_law 702 = .ok (.iload 5, 2) := by decide +kernel
theorem dL_law_704 : decode cL_law 704 = .ok (.if_icmp .eq 5, 3) := by decide +kernel
theorem dL_law_707 : decode cL_law 707 = .ok (.iconst 0, 1) := by decide +kernel
theorem dL_law_708 : decode cL_law 708 = .ok (.ireturn, 1) := by decide +kernel
theorem dL_law_709 : decode cL_law 709 = .ok (.iload 5, 2) := by decide +kernel
theorem dL_law_711 : decode cL_law 711 = .ok (.ifCond .ne 15, 3) := by decide +kernel
theorem dL_law_714 : decode cL_law 714 = .ok (.aload_n 3, 1) := by decide +kernel
theorem dL_law_715 : decode cL_law 715 = .ok (.iconst 0, 1) := by decide +kernel
theorem dL_law_716 : decode cL_law 716 = .ok (.laload, 1) := by decide +kernel
theorem dL_law_717 : decode cL_law 717 = .ok (.iload 6, 2) := by decide +kernel
theorem dL_law_719 : decode cL_law 719 = .ok (.i2l, 1) := by decide +kernel
theorem dL_law_720 : decode cL_law 720 = .ok (.lcmp, 1) := by decide +kernel
theorem dL_law_721 : decode cL_law 721 = .ok (.ifCond .eq 5, 3) := by decide +kernel
theorem dL_law_724 : decode cL_law 724 = .ok (.iconst 0, 1) := by decide +kernel
theorem dL_law_725 : decode cL_law 725 = .ok (.ireturn, 1) := by decide +kernel
theorem dL_law_726 : decode cL_law 726 = .ok (.goto 2180, 3) := by decide +kernel
theorem dL_law_729 : decode cL_law 729 = .ok (.aload_n 1, 1) := by decide +kernel
theorem dL_law_730 : decode cL_law 730 = .ok (.aload_n 0, 1) := by decide +kernel
theorem dL_law_731 : decode cL_law 731 = .ok (.iload 4, 2) := by decide +kernel
theorem dL_law_733 : decode cL_law 733 = .ok (.iconst 1, 1) := by decide +kernel
theorem dL_law_734 : decode cL_law 734 = .ok (.iadd, 1) := by decide +kernel
theorem dL_law_735 : decode cL_law 735 = .ok (.iaload, 1) := by decide +kernel
theorem dL_law_736 : decode cL_law 736 = .ok (.aload_n 0, 1) := by decide +kernel
theorem dL_law_737 : decode cL_law 737 = .ok (.iload 4, 2) := by decide +kernel
theorem dL_law_739 : decode cL_law 739 = .ok (.iconst 2, 1) := by decide +kernel
theorem dL_law_740 : decode cL_law 740 = .ok (.iadd, 1) := by decide +kernel
theorem dL_law_741 : decode cL_law 741 = .ok (.iaload, 1) := by decide +kernel
theorem dL_law_742 : decode cL_law 742 = .ok (.aload_n 3, 1) := by decide +kernel
theorem dL_law_743 : decode cL_law 743 = .ok (.invokestatic 167, 3) := by decide +kernel
theorem dL_law_746 : decode cL_law 746 = .ok (.istore 5, 2) := by decide +kernel
theorem dL_law_748 : decode cL_law 748 = .ok (.aload_n 2, 1) := by decide +kernel
theorem dL_law_749 : decode cL_law 749 = .ok (.aload_n 0, 1) := by decide +kernel
theorem dL_law_750 : decode cL_law 750 = .ok (.iload 4, 2) := by decide +kernel
theorem dL_law_752 : decode cL_law 752 = .ok (.iconst 1, 1) := by decide +kernel
theorem dL_law_753 : decode cL_law 753 = .ok (.iadd, 1) := by decide +kernel
theorem dL_law_754 : decode cL_law 754 = .ok (.iaload, 1) := by decide +kernel
theorem dL_law_755 : decode cL_law 755 = .ok (.aload_n 0, 1) := by decide +kernel
theorem dL_law_756 : decode cL_law 756 = .ok (.iload 4, 2) := by decide +kernel
theorem dL_law_758 : decode cL_law 758 = .ok (.iconst 2, 1) := by decide +kernel
theorem dL_law_759 : decode cL_law 759 = .ok (.iadd, 1) := by decide +kernel
theorem dL_law_760 : decode cL_law 760 = .ok (.iaload, 1) := by decide +kernel
theorem dL_law_761 : decode cL_law 761 = .ok (.invokevirtual 169, 3) := by decide +kernel
theorem dL_law_764 : decode cL_law 764 = .ok (.istore 6, 2) := by decide +kernel
theorem dL_law_766 : decode cL_law 766 = .ok (.aload_n 2, 1) := by decide +kernel
theorem dL_law_767 : decode cL_law 767 = .ok (.invokevirtual 144, 3) := by decide +kernel
theorem dL_law_770 : decode cL_law 770 = .ok (.iload 5, 2) := by decide +kernel
theorem dL_law_772 : decode cL_law 772 = .ok (.if_icmp .eq 5, 3) := by decide +kernel
theorem dL_law_775 : decode cL_law 775 = .ok (.iconst 0, 1) := by decide +kernel
theorem dL_law_776 : decode cL_law 776 = .ok (.ireturn, 1) := by decide +kernel
theorem dL_law_777 : decode cL_law 777 = .ok (.iload 5, 2) := by decide +kernel
theorem dL_law_779 : decode cL_law 779 = .ok (.ifCond .ne 15, 3) := by decide +kernel
theorem dL_law_782 : decode cL_law 782 = .ok (.aload_n 3, 1) := by decide +kernel
theorem dL_law_783 : decode cL_law 783 = .ok (.iconst 0, 1) := by decide +kernel
theorem dL_law_784 : decode cL_law 784 = .ok (.laload, 1) := by decide +kernel
theorem dL_law_785 : decode cL_law 785 = .ok (.iload 6, 2) := by decide +kernel
theorem dL_law_787 : decode cL_law 787 = .ok (.i2l, 1) := by decide +kernel
theorem dL_law_788 : decode cL_law 788 = .ok (.lcmp, 1) := by decide +kernel
theorem dL_law_789 : decode cL_law 789 = .ok (.ifCond .eq 5, 3) := by decide +kernel
theorem dL_law_792 : decode cL_law 792 = .ok (.iconst 0, 1) := by decide +kernel
theorem dL_law_793 : decode cL_law 793 = .ok (.ireturn, 1) := by decide +kernel
theorem dL_law_794 : decode cL_law 794 = .ok (.goto 2112, 3) := by decide +kernel
theorem dL_law_797 : decode cL_law 797 = .ok (.aload_n 1, 1) := by decide +kernel
theorem dL_law_798 : decode cL_law 798 = .ok (.aload_n 0, 1) := by decide +kernel
theorem dL_law_799 : decode cL_law 799 = .ok (.iload 4, 2) := by decide +kernel
theorem dL_law_801 : decode cL_law 801 = .ok (.iconst 1, 1) := by decide +kernel
theorem dL_law_802 : decode cL_law 802 = .ok (.iadd, 1) := by decide +kernel
theorem dL_law_803 : decode cL_law 803 = .ok (.iaload, 1) := by decide +kernel
theorem dL_law_804 : decode cL_law 804 = .ok (.aload_n 3, 1) := by decide +kernel
theorem dL_law_805 : decode cL_law 805 = .ok (.invokestatic 170, 3) := by decide +kernel
theorem dL_law_808 : decode cL_law 808 = .ok (.istore 5, 2) := by decide +kernel
theorem dL_law_810 : decode cL_law 810 = .ok (.aload_n 2, 1) := by decide +kernel
theorem dL_law_811 : decode cL_law 811 = .ok (.aload_n 0, 1) := by decide +kernel
theorem dL_law_812 : decode cL_law 812 = .ok (.iload 4, 2) := by decide +kernel
theorem dL_law_814 : decode cL_law 814 = .ok (.iconst 1, 1) := by decide +kernel
theorem dL_law_815 : decode cL_law 815 = .ok (.iadd, 1) := by decide +kernel
theorem dL_law_816 : decode cL_law 816 = .ok (.iaload, 1) := by decide +kernel
theorem dL_law_817 : decode cL_law 817 = .ok (.invokevirtual 172, 3) := by decide +kernel
theorem dL_law_820 : decode cL_law 820 = .ok (.istore 6, 2) := by decide +kernel
theorem dL_law_822 : decode cL_law 822 = .ok (.aload_n 2, 1) := by decide +kernel
theorem dL_law_823 : decode cL_law 823 = .ok (.invokevirtual 144, 3) := by decide +kernel
theorem dL_law_826 : decode cL_law 826 = .ok (.iload 5, 2) := by decide +kernel
theorem dL_law_828 : decode cL_law 828 = .ok (.if_icmp .eq 5, 3) := by decide +kernel
theorem dL_law_831 : decode cL_law 831 = .ok (.iconst 0, 1) := by decide +kernel
theorem dL_law_832 : decode cL_law 832 = .ok (.ireturn, 1) := by decide +kernel
theorem dL_law_833 : decode cL_law 833 = .ok (.iload 5, 2) := by decide +kernel
theorem dL_law_835 : decode cL_law 835 = .ok (.ifCond .ne 15, 3) := by decide +kernel
theorem dL_law_838 : decode cL_law 838 = .ok (.aload_n 3, 1) := by decide +kernel
theorem dL_law_839 : decode cL_law 839 = .ok (.iconst 0, 1) := by decide +kernel
theorem dL_law_840 : decode cL_law 840 = .ok (.laload, 1) := by decide +kernel
theorem dL_law_841 : decode cL_law 841 = .ok (.iload 6, 2) := by decide +kernel
theorem dL_law_843 : decode cL_law 843 = .ok (.i2l, 1) := by decide +kernel
theorem dL_law_844 : decode cL_law 844 = .ok (.lcmp, 1) := by decide +kernel
theorem dL_law_845 : decode cL_law 845 = .ok (.ifCond .eq 5, 3) := by decide +kernel
theorem dL_law_848 : decode cL_law 848 = .ok (.iconst 0, 1) := by decide +kernel
theorem dL_law_849 : decode cL_law 849 = .ok (.ireturn, 1) := by decide +kernel
theorem dL_law_850 : decode cL_law 850 = .ok (.goto 2056, 3) := by decide +kernel
theorem dL_law_853 : decode cL_law 853 = .ok (.aload_n 1, 1) := by decide +kernel
theorem dL_law_854 : decode cL_law 854 = .ok (.aload_n 0, 1) := by decide +kernel
theorem dL_law_855 : decode cL_law 855 = .ok (.iload 4, 2) := by decide +kernel
theorem dL_law_857 : decode cL_law 857 = .ok (.iconst 1, 1) := by decide +kernel
theorem dL_law_858 : decode cL_law 858 = .ok (.iadd, 1) := by decide +kernel
theorem dL_law_859 : decode cL_law 859 = .ok (.iaload, 1) := by decide +kernel
theorem dL_law_860 : decode cL_law 860 = .ok (.aload_n 3, 1) := by decide +kernel
theorem dL_law_861 : decode cL_law 861 = .ok (.invokestatic 173, 3) := by decide +kernel
theorem dL_law_864 : decode cL_law 864 = .ok (.istore 5, 2) := by decide +kernel
theorem dL_law_866 : decode cL_law 866 = .ok (.aload_n 2, 1) := by decide +kernel
theorem dL_law_867 : decode cL_law 867 = .ok (.aload_n 0, 1) := by decide +kernel
theorem dL_law_868 : decode cL_law 868 = .ok (.iload 4, 2) := by decide +kernel
theorem dL_law_870 : decode cL_law 870 = .ok (.iconst 1, 1) := by decide +kernel
theorem dL_law_871 : decode cL_law 871 = .ok (.iadd, 1) := by decide +kernel
theorem dL_law_872 : decode cL_law 872 = .ok (.iaload, 1) := by decide +kernel
theorem dL_law_873 : decode cL_law 873 = .ok (.invokevirtual 175, 3) := by decide +kernel
theorem dL_law_876 : decode cL_law 876 = .ok (.istore 6, 2) := by decide +kernel
theorem dL_law_878 : decode cL_law 878 = .ok (.aload_n 2, 1) := by decide +kernel
theorem dL_law_879 : decode cL_law 879 = .ok (.invokevirtual 144, 3) := by decide +kernel
theorem dL_law_882 : decode cL_law 882 = .ok (.iload 5, 2) := by decide +kernel
theorem dL_law_884 : decode cL_law 884 = .ok (.if_icmp .eq 5, 3) := by decide +kernel
theorem dL_law_887 : decode cL_law 887 = .ok (.iconst 0, 1) := by decide +kernel
theorem dL_law_888 : decode cL_law 888 = .ok (.ireturn, 1) := by decide +kernel
theorem dL_law_889 : decode cL_law 889 = .ok (.iload 5, 2) := by decide +kernel
theorem dL_law_891 : decode cL_law 891 = .ok (.ifCond .ne 15, 3) := by decide +kernel
theorem dL_law_894 : decode cL_law 894 = .ok (.aload_n 3, 1) := by decide +kernel
theorem dL_law_895 : decode cL_law 895 = .ok (.iconst 0, 1) := by decide +kernel
theorem dL_law_896 : decode cL_law 896 = .ok (.laload, 1) := by decide +kernel
theorem dL_law_897 : decode cL_law 897 = .ok (.iload 6, 2) := by decide +kernel
theorem dL_law_899 : decode cL_law 899 = .ok (.i2l, 1) := by decide +kernel
theorem dL_law_900 : decode cL_law 900 = .ok (.lcmp, 1) := by decide +kernel
theorem dL_law_901 : decode cL_law 901 = .ok (.ifCond .eq 5, 3) := by decide +kernel
theorem dL_law_904 : decode cL_law 904 = .ok (.iconst 0, 1) := by decide +kernel
theorem dL_law_905 : decode cL_law 905 = .ok (.ireturn, 1) := by decide +kernel
theorem dL_law_906 : decode cL_law 906 = .ok (.goto 2000, 3) := by decide +kernel
theorem dL_law_909 : decode cL_law 909 = .ok (.aload_n 1, 1) := by decide +kernel
theorem dL_law_910 : decode cL_law 910 = .ok (.aload_n 0, 1) := by decide +kernel
theorem dL_law_911 : decode cL_law 911 = .ok (.iload 4, 2) := by decide +kernel
theorem dL_law_913 : decode cL_law 913 = .ok (.iconst 1, 1) := by decide +kernel
theorem dL_law_914 : decode cL_law 914 = .ok (.iadd, 1) := by decide +kernel
theorem dL_law_915 : decode cL_law 915 = .ok (.iaload, 1) := by decide +kernel
theorem dL_law_916 : decode cL_law 916 = .ok (.aload_n 0, 1) := by decide +kernel
theorem dL_law_917 : decode cL_law 917 = .ok (.iload 4, 2) := by decide +kernel
theorem dL_law_919 : decode cL_law 919 = .ok (.iconst 2, 1) := by decide +kernel
theorem dL_law_920 : decode cL_law 920 = .ok (.iadd, 1) := by decide +kernel
theorem dL_law_921 : decode cL_law 921 = .ok (.iaload, 1) := by decide +kernel
theorem dL_law_922 : decode cL_law 922 = .ok (.aload_n 3, 1) := by decide +kernel
theorem dL_law_923 : decode cL_law 923 = .ok (.invokestatic 176, 3) := by decide +kernel
theorem dL_law_926 : decode cL_law 926 = .ok (.istore 5, 2) := by decide +kernel
theorem dL_law_928 : decode cL_law 928 = .ok (.aload_n 2, 1) := by decide +kernel
theorem dL_law_929 : decode cL_law 929 = .ok (.aload_n 0, 1) := by decide +kernel
theorem dL_law_930 : decode cL_law 930 = .ok (.iload 4, 2) := by decide +kernel
theorem dL_law_932 : decode cL_law 932 = .ok (.iconst 1, 1) := by decide +kernel
theorem dL_law_933 : decode cL_law 933 = .ok (.iadd, 1) := by decide +kernel
theorem dL_law_934 : decode cL_law 934 = .ok (.iaload, 1) := by decide +kernel
theorem dL_law_935 : decode cL_law 935 = .ok (.aload_n 0, 1) := by decide +kernel
theorem dL_law_936 : decode cL_law 936 = .ok (.iload 4, 2) := by decide +kernel
theorem dL_law_938 : decode cL_law 938 = .ok (.iconst 2, 1) := by decide +kernel
theorem dL_law_939 : decode cL_law 939 = .ok (.iadd, 1) := by decide +kernel
theorem dL_law_940 : decode cL_law 940 = .ok (.iaload, 1) := by decide +kernel
theorem dL_law_941 : decode cL_law 941 = .ok (.invokevirtual 178, 3) := by decide +kernel
theorem dL_law_944 : decode cL_law 944 = .ok (.istore 6, 2) := by decide +kernel
theorem dL_law_946 : decode cL_law 946 = .ok (.aload_n 2, 1) := by decide +kernel
theorem dL_law_947 : decode cL_law 947 = .ok (.invokevirtual 144, 3) := by decide +kernel
theorem dL_law_950 : decode cL_law 950 = .ok (.iload 5, 2) := by decide +kernel
theorem dL_law_952 : decode cL_law 952 = .ok (.if_icmp .eq 5, 3) := by decide +kernel
theorem dL_law_955 : decode cL_law 955 = .ok (.iconst 0, 1) := by decide +kernel
theorem dL_law_956 : decode cL_law 956 = .ok (.ireturn, 1) := by decide +kernel
theorem dL_law_957 : decode cL_law 957 = .ok (.iload 5, 2) := by decide +kernel
theorem dL_law_959 : decode cL_law 959 = .ok (.ifCond .ne 22, 3) := by decide +kernel
theorem dL_law_962 : decode cL_law 962 = .ok (.aload_n 3, 1) := by decide +kernel
theorem dL_law_963 : decode cL_law 963 = .ok (.iconst 0, 1) := by decide +kernel
theorem dL_law_964 : decode cL_law 964 = .ok (.laload, 1) := by decide +kernel
theorem dL_law_965 : decode cL_law 965 = .ok (.iload 6, 2) := by decide +kernel
theorem dL_law_967 : decode cL_law 967 = .ok (.ifCond .eq 7, 3) := by decide +kernel
theorem dL_law_970 : decode cL_law 970 = .ok (.lconst 1, 1) := by decide +kernel
theorem dL_law_971 : decode cL_law 971 = .ok (.goto 4, 3) := by decide +kernel
theorem dL_law_974 : decode cL_law 974 = .ok (.lconst 0, 1) := by decide +kernel
theorem dL_law_975 : decode cL_law 975 = .ok (.lcmp, 1) := by decide +kernel
theorem dL_law_976 : decode cL_law 976 = .ok (.ifCond .eq 5, 3) := by decide +kernel
theorem dL_law_979 : decode cL_law 979 = .ok (.iconst 0, 1) := by decide +kernel
theorem dL_law_980 : decode cL_law 980 = .ok (.ireturn, 1) := by decide +kernel
theorem dL_law_981 : decode cL_law 981 = .ok (.goto 1925, 3) := by decide +kernel
theorem dL_law_984 : decode cL_law 984 = .ok (.aload_n 1, 1) := by decide +kernel
theorem dL_law_985 : decode cL_law 985 = .ok (.aload_n 0, 1) := by decide +kernel
theorem dL_law_986 : decode cL_law 986 = .ok (.iload 4, 2) := by decide +kernel
theorem dL_law_988 : decode cL_law 988 = .ok (.iconst 1, 1) := by decide +kernel
theorem dL_law_989 : decode cL_law 989 = .ok (.iadd, 1) := by decide +kernel
theorem dL_law_990 : decode cL_law 990 = .ok (.iaload, 1) := by decide +kernel
theorem dL_law_991 : decode cL_law 991 = .ok (.aload_n 0, 1) := by decide +kernel
theorem dL_law_992 : decode cL_law 992 = .ok (.iload 4, 2) := by decide +kernel
theorem dL_law_994 : decode cL_law 994 = .ok (.iconst 2, 1) := by decide +kernel
theorem dL_law_995 : decode cL_law 995 = .ok (.iadd, 1) := by decide +kernel
theorem dL_law_996 : decode cL_law 996 = .ok (.iaload, 1) := by decide +kernel
theorem dL_law_997 : decode cL_law 997 = .ok (.aload_n 3, 1) := by decide +kernel
theorem dL_law_998 : decode cL_law 998 = .ok (.invokestatic 179, 3) := by decide +kernel
theorem dL_law_1001 : decode cL_law 1001 = .ok (.istore 5, 2) := by decide +kernel
theorem dL_law_1003 : decode cL_law 1003 = .ok (.aload_n 2, 1) := by decide +kernel
theorem dL_law_1004 : decode cL_law 1004 = .ok (.aload_n 0, 1) := by decide +kernel
theorem dL_law_1005 : decode cL_law 1005 = .ok (.iload 4, 2) := by decide +kernel
theorem dL_law_1007 : decode cL_law 1007 = .ok (.iconst 1, 1) := by decide +kernel
theorem dL_law_1008 : decode cL_law 1008 = .ok (.iadd, 1) := by decide +kernel
theorem dL_law_1009 : decode cL_law 1009 = .ok (.iaload, 1) := by decide +kernel
theorem dL_law_1010 : decode cL_law 1010 = .ok (.aload_n 0, 1) := by decide +kernel
theorem dL_law_1011 : decode cL_law 1011 = .ok (.iload 4, 2) := by decide +kernel
theorem dL_law_1013 : decode cL_law 1013 = .ok (.iconst 2, 1) := by decide +kernel
theorem dL_law_1014 : decode cL_law 1014 = .ok (.iadd, 1) := by decide +kernel
theorem dL_law_1015 : decode cL_law 1015 = .ok (.iaload, 1) := by decide +kernel
theorem dL_law_1016 : decode cL_law 1016 = .ok (.invokevirtual 181, 3) := by decide +kernel
theorem dL_law_1019 : decode cL_law 1019 = .ok (.istore 6, 2) := by decide +kernel
theorem dL_law_1021 : decode cL_law 1021 = .ok (.aload_n 2, 1) := by decide +kernel
theorem dL_law_1022 : decode cL_law 1022 = .ok (.invokevirtual 144, 3) := by decide +kernel
theorem dL_law_1025 : decode cL_law 1025 = .ok (.iload 5, 2) := by decide +kernel
theorem dL_law_1027 : decode cL_law 1027 = .ok (.if_icmp .eq 5, 3) := by decide +kernel
theorem dL_law_1030 : decode cL_law 1030 = .ok (.iconst 0, 1) := by decide +kernel
theorem dL_law_1031 : decode cL_law 1031 = .ok (.ireturn, 1) := by decide +kernel
theorem dL_law_1032 : decode cL_law 1032 = .ok (.iload 5, 2) := by decide +kernel
theorem dL_law_1034 : decode cL_law 1034 = .ok (.ifCond .ne 22, 3) := by decide +kernel
theorem dL_law_1037 : decode cL_law 1037 = .ok (.aload_n 3, 1) := by decide +kernel
theorem dL_law_1038 : decode cL_law 1038 = .ok (.iconst 0, 1) := by decide +kernel
theorem dL_law_1039 : decode cL_law 1039 = .ok (.laload, 1) := by decide +kernel
theorem dL_law_1040 : decode cL_law 1040 = .ok (.iload 6, 2) := by decide +kernel
theorem dL_law_1042 : decode cL_law 1042 = .ok (.ifCond .eq 7, 3) := by decide +kernel
theorem dL_law_1045 : decode cL_law 1045 = .ok (.lconst 1, 1) := by decide +kernel
theorem dL_law_1046 : decode cL_law 1046 = .ok (.goto 4, 3) := by decide +kernel
theorem dL_law_1049 : decode cL_law 1049 = .ok (.lconst 0, 1) := by decide +kernel
theorem dL_law_1050 : decode cL_law 1050 = .ok (.lcmp, 1) := by decide +kernel
theorem dL_law_1051 : decode cL_law 1051 = .ok (.ifCond .eq 5, 3) := by decide +kernel
theorem dL_law_1054 : decode cL_law 1054 = .ok (.iconst 0, 1) := by decide +kernel
theorem dL_law_1055 : decode cL_law 1055 = .ok (.ireturn, 1) := by decide +kernel
theorem dL_law_1056 : decode cL_law 1056 = .ok (.goto 1850, 3) := by decide +kernel
theorem dL_law_1059 : decode cL_law 1059 = .ok (.aload_n 1, 1) := by decide +kernel
theorem dL_law_1060 : decode cL_law 1060 = .ok (.aload_n 0, 1) := by decide +kernel
theorem dL_law_1061 : decode cL_law 1061 = .ok (.iload 4, 2) := by decide +kernel
theorem dL_law_1063 : decode cL_law 1063 = .ok (.iconst 1, 1) := by decide +kernel
theorem dL_law_1064 : decode cL_law 1064 = .ok (.iadd, 1) := by decide +kernel
theorem dL_law_1065 : decode cL_law 1065 = .ok (.iaload, 1) := by decide +kernel
theorem dL_law_1066 : decode cL_law 1066 = .ok (.aload_n 0, 1) := by decide +kernel
theorem dL_law_1067 : decode cL_law 1067 = .ok (.iload 4, 2) := by decide +kernel
theorem dL_law_1069 : decode cL_law 1069 = .ok (.iconst 2, 1) := by decide +kernel
theorem dL_law_1070 : decode cL_law 1070 = .ok (.iadd, 1) := by decide +kernel
theorem dL_law_1071 : decode cL_law 1071 = .ok (.iaload, 1) := by decide +kernel
theorem dL_law_1072 : decode cL_law 1072 = .ok (.aload_n 3, 1) := by decide +kernel
theorem dL_law_1073 : decode cL_law 1073 = .ok (.invokestatic 182, 3) := by decide +kernel
theorem dL_law_1076 : decode cL_law 1076 = .ok (.istore 5, 2) := by decide +kernel
theorem dL_law_1078 : decode cL_law 1078 = .ok (.aload_n 2, 1) := by decide +kernel
theorem dL_law_1079 : decode cL_law 1079 = .ok (.aload_n 0, 1) := by decide +kernel
theorem dL_law_1080 : decode cL_law 1080 = .ok (.iload 4, 2) := by decide +kernel
theorem dL_law_1082 : decode cL_law 1082 = .ok (.iconst 1, 1) := by decide +kernel
theorem dL_law_1083 : decode cL_law 1083 = .ok (.iadd, 1) := by decide +kernel
theorem dL_law_1084 : decode cL_law 1084 = .ok (.iaload, 1) := by decide +kernel
theorem dL_law_1085 : decode cL_law 1085 = .ok (.aload_n 0, 1) := by decide +kernel
theorem dL_law_1086 : decode cL_law 1086 = .ok (.iload 4, 2) := by decide +kernel
theorem dL_law_1088 : decode cL_law 1088 = .ok (.iconst 2, 1) := by decide +kernel
theorem dL_law_1089 : decode cL_law 1089 = .ok (.iadd, 1) := by decide +kernel
theorem dL_law_1090 : decode cL_law 1090 = .ok (.iaload, 1) := by decide +kernel
theorem dL_law_1091 : decode cL_law 1091 = .ok (.invokevirtual 184, 3) := by decide +kernel
theorem dL_law_1094 : decode cL_law 1094 = .ok (.istore 6, 2) := by decide +kernel
theorem dL_law_1096 : decode cL_law 1096 = .ok (.aload_n 2, 1) := by decide +kernel
theorem dL_law_1097 : decode cL_law 1097 = .ok (.invokevirtual 144, 3) := by decide +kernel
theorem dL_law_1100 : decode cL_law 1100 = .ok (.iload 5, 2) := by decide +kernel
theorem dL_law_1102 : decode cL_law 1102 = .ok (.if_icmp .eq 5, 3) := by decide +kernel
theorem dL_law_1105 : decode cL_law 1105 = .ok (.iconst 0, 1) := by decide +kernel
theorem dL_law_1106 : decode cL_law 1106 = .ok (.ireturn, 1) := by decide +kernel
theorem dL_law_1107 : decode cL_law 1107 = .ok (.iload 5, 2) := by decide +kernel
theorem dL_law_1109 : decode cL_law 1109 = .ok (.ifCond .ne 22, 3) := by decide +kernel
theorem dL_law_1112 : decode cL_law 1112 = .ok (.aload_n 3, 1) := by decide +kernel
theorem dL_law_1113 : decode cL_law 1113 = .ok (.iconst 0, 1) := by decide +kernel
theorem dL_law_1114 : decode cL_law 1114 = .ok (.laload, 1) := by decide +kernel
theorem dL_law_1115 : decode cL_law 1115 = .ok (.iload 6, 2) := by decide +kernel
theorem dL_law_1117 : decode cL_law 1117 = .ok (.ifCond .eq 7, 3) := by decide +kernel
theorem dL_law_1120 : decode cL_law 1120 = .ok (.lconst 1, 1) := by decide +kernel
theorem dL_law_1121 : decode cL_law 1121 = .ok (.goto 4, 3) := by decide +kernel
theorem dL_law_1124 : decode cL_law 1124 = .ok (.lconst 0, 1) := by decide +kernel
theorem dL_law_1125 : decode cL_law 1125 = .ok (.lcmp, 1) := by decide +kernel
theorem dL_law_1126 : decode cL_law 1126 = .ok (.ifCond .eq 5, 3) := by decide +kernel
theorem dL_law_1129 : decode cL_law 1129 = .ok (.iconst 0, 1) := by decide +kernel
theorem dL_law_1130 : decode cL_law 1130 = .ok (.ireturn, 1) := by decide +kernel
theorem dL_law_1131 : decode cL_law 1131 = .ok (.goto 1775, 3) := by decide +kernel
theorem dL_law_1134 : decode cL_law 1134 = .ok (.aload_n 1, 1) := by decide +kernel
theorem dL_law_1135 : decode cL_law 1135 = .ok (.aload_n 0, 1) := by decide +kernel
theorem dL_law_1136 : decode cL_law 1136 = .ok (.iload 4, 2) := by decide +kernel
theorem dL_law_1138 : decode cL_law 1138 = .ok (.iconst 1, 1) := by decide +kernel
theorem dL_law_1139 : decode cL_law 1139 = .ok (.iadd, 1) := by decide +kernel
theorem dL_law_1140 : decode cL_law 1140 = .ok (.iaload, 1) := by decide +kernel
theorem dL_law_1141 : decode cL_law 1141 = .ok (.aload_n 0, 1) := by decide +kernel
theorem dL_law_1142 : decode cL_law 1142 = .ok (.iload 4, 2) := by decide +kernel
theorem dL_law_1144 : decode cL_law 1144 = .ok (.iconst 2, 1) := by decide +kernel
theorem dL_law_1145 : decode cL_law 1145 = .ok (.iadd, 1) := by decide +kernel
theorem dL_law_1146 : decode cL_law 1146 = .ok (.iaload, 1) := by decide +kernel
theorem dL_law_1147 : decode cL_law 1147 = .ok (.aload_n 3, 1) := by decide +kernel
theorem dL_law_1148 : decode cL_law 1148 = .ok (.invokestatic 185, 3) := by decide +kernel
theorem dL_law_1151 : decode cL_law 1151 = .ok (.istore 5, 2) := by decide +kernel
theorem dL_law_1153 : decode cL_law 1153 = .ok (.aload_n 2, 1) := by decide +kernel
theorem dL_law_1154 : decode cL_law 1154 = .ok (.aload_n 0, 1) := by decide +kernel
theorem dL_law_1155 : decode cL_law 1155 = .ok (.iload 4, 2) := by decide +kernel
theorem dL_law_1157 : decode cL_law 1157 = .ok (.iconst 1, 1) := by decide +kernel
theorem dL_law_1158 : decode cL_law 1158 = .ok (.iadd, 1) := by decide +kernel
theorem dL_law_1159 : decode cL_law 1159 = .ok (.iaload, 1) := by decide +kernel
theorem dL_law_1160 : decode cL_law 1160 = .ok (.aload_n 0, 1) := by decide +kernel
theorem dL_law_1161 : decode cL_law 1161 = .ok (.iload 4, 2) := by decide +kernel
theorem dL_law_1163 : decode cL_law 1163 = .ok (.iconst 2, 1) := by decide +kernel
theorem dL_law_1164 : decode cL_law 1164 = .ok (.iadd, 1) := by decide +kernel
theorem dL_law_1165 : decode cL_law 1165 = .ok (.iaload, 1) := by decide +kernel
theorem dL_law_1166 : decode cL_law 1166 = .ok (.invokevirtual 187, 3) := by decide +kernel
theorem dL_law_1169 : decode cL_law 1169 = .ok (.istore 6, 2) := by decide +kernel
theorem dL_law_1171 : decode cL_law 1171 = .ok (.aload_n 2, 1) := by decide +kernel
theorem dL_law_1172 : decode cL_law 1172 = .ok (.invokevirtual 144, 3) := by decide +kernel
theorem dL_law_1175 : decode cL_law 1175 = .ok (.iload 5, 2) := by decide +kernel
theorem dL_law_1177 : decode cL_law 1177 = .ok (.if_icmp .eq 5, 3) := by decide +kernel
theorem dL_law_1180 : decode cL_law 1180 = .ok (.iconst 0, 1) := by decide +kernel
theorem dL_law_1181 : decode cL_law 1181 = .ok (.ireturn, 1) := by decide +kernel
theorem dL_law_1182 : decode cL_law 1182 = .ok (.iload 5, 2) := by decide +kernel
theorem dL_law_1184 : decode cL_law 1184 = .ok (.ifCond .ne 15, 3) := by decide +kernel
theorem dL_law_1187 : decode cL_law 1187 = .ok (.aload_n 3, 1) := by decide +kernel
theorem dL_law_1188 : decode cL_law 1188 = .ok (.iconst 0, 1) := by decide +kernel
theorem dL_law_1189 : decode cL_law 1189 = .ok (.laload, 1) := by decide +kernel
theorem dL_law_1190 : decode cL_law 1190 = .ok (.iload 6, 2) := by decide +kernel
theorem dL_law_1192 : decode cL_law 1192 = .ok (.i2l, 1) := by decide +kernel
theorem dL_law_1193 : decode cL_law 1193 = .ok (.lcmp, 1) := by decide +kernel
theorem dL_law_1194 : decode cL_law 1194 = .ok (.ifCond .eq 5, 3) := by decide +kernel
theorem dL_law_1197 : decode cL_law 1197 = .ok (.iconst 0, 1) := by decide +kernel
theorem dL_law_1198 : decode cL_law 1198 = .ok (.ireturn, 1) := by decide +kernel
theorem dL_law_1199 : decode cL_law 1199 = .ok (.goto 1707, 3) := by decide +kernel
theorem dL_law_1202 : decode cL_law 1202 = .ok (.aload_n 1, 1) := by decide +kernel
theorem dL_law_1203 : decode cL_law 1203 = .ok (.aload_n 0, 1) := by decide +kernel
theorem dL_law_1204 : decode cL_law 1204 = .ok (.iload 4, 2) := by decide +kernel
theorem dL_law_1206 : decode cL_law 1206 = .ok (.iconst 1, 1) := by decide +kernel
theorem dL_law_1207 : decode cL_law 1207 = .ok (.iadd, 1) := by decide +kernel
theorem dL_law_1208 : decode cL_law 1208 = .ok (.iaload, 1) := by decide +kernel
theorem dL_law_1209 : decode cL_law 1209 = .ok (.aload_n 0, 1) := by decide +kernel
theorem dL_law_1210 : decode cL_law 1210 = .ok (.iload 4, 2) := by decide +kernel
theorem dL_law_1212 : decode cL_law 1212 = .ok (.iconst 2, 1) := by decide +kernel
theorem dL_law_1213 : decode cL_law 1213 = .ok (.iadd, 1) := by decide +kernel
theorem dL_law_1214 : decode cL_law 1214 = .ok (.iaload, 1) := by decide +kernel
theorem dL_law_1215 : decode cL_law 1215 = .ok (.aload_n 0, 1) := by decide +kernel
theorem dL_law_1216 : decode cL_law 1216 = .ok (.iload 4, 2) := by decide +kernel
theorem dL_law_1218 : decode cL_law 1218 = .ok (.iconst 3, 1) := by decide +kernel
theorem dL_law_1219 : decode cL_law 1219 = .ok (.iadd, 1) := by decide +kernel
theorem dL_law_1220 : decode cL_law 1220 = .ok (.iaload, 1) := by decide +kernel
theorem dL_law_1221 : decode cL_law 1221 = .ok (.aload_n 3, 1) := by decide +kernel
theorem dL_law_1222 : decode cL_law 1222 = .ok (.invokestatic 188, 3) := by decide +kernel
theorem dL_law_1225 : decode cL_law 1225 = .ok (.istore 5, 2) := by decide +kernel
theorem dL_law_1227 : decode cL_law 1227 = .ok (.aload_n 2, 1) := by decide +kernel
theorem dL_law_1228 : decode cL_law 1228 = .ok (.aload_n 0, 1) := by decide +kernel
theorem dL_law_1229 : decode cL_law 1229 = .ok (.iload 4, 2) := by decide +kernel
theorem dL_law_1231 : decode cL_law 1231 = .ok (.iconst 1, 1) := by decide +kernel
theorem dL_law_1232 : decode cL_law 1232 = .ok (.iadd, 1) := by decide +kernel
theorem dL_law_1233 : decode cL_law 1233 = .ok (.iaload, 1) := by decide +kernel
theorem dL_law_1234 : decode cL_law 1234 = .ok (.aload_n 0, 1) := by decide +kernel
theorem dL_law_1235 : decode cL_law 1235 = .ok (.iload 4, 2) := by decide +kernel
theorem dL_law_1237 : decode cL_law 1237 = .ok (.iconst 2, 1) := by decide +kernel
theorem dL_law_1238 : decode cL_law 1238 = .ok (.iadd, 1) := by decide +kernel
theorem dL_law_1239 : decode cL_law 1239 = .ok (.iaload, 1) := by decide +kernel
theorem dL_law_1240 : decode cL_law 1240 = .ok (.aload_n 0, 1) := by decide +kernel
theorem dL_law_1241 : decode cL_law 1241 = .ok (.iload 4, 2) := by decide +kernel
theorem dL_law_1243 : decode cL_law 1243 = .ok (.iconst 3, 1) := by decide +kernel
theorem dL_law_1244 : decode cL_law 1244 = .ok (.iadd, 1) := by decide +kernel
theorem dL_law_1245 : decode cL_law 1245 = .ok (.iaload, 1) := by decide +kernel
theorem dL_law_1246 : decode cL_law 1246 = .ok (.invokevirtual 191, 3) := by decide +kernel
theorem dL_law_1249 : decode cL_law 1249 = .ok (.istore 6, 2) := by decide +kernel
theorem dL_law_1251 : decode cL_law 1251 = .ok (.aload_n 2, 1) := by decide +kernel
theorem dL_law_1252 : decode cL_law 1252 = .ok (.invokevirtual 144, 3) := by decide +kernel
theorem dL_law_1255 : decode cL_law 1255 = .ok (.iload 5, 2) := by decide +kernel
theorem dL_law_1257 : decode cL_law 1257 = .ok (.if_icmp .eq 5, 3) := by decide +kernel
theorem dL_law_1260 : decode cL_law 1260 = .ok (.iconst 0, 1) := by decide +kernel
theorem dL_law_1261 : decode cL_law 1261 = .ok (.ireturn, 1) := by decide +kernel
theorem dL_law_1262 : decode cL_law 1262 = .ok (.iload 5, 2) := by decide +kernel
theorem dL_law_1264 : decode cL_law 1264 = .ok (.ifCond .ne 15, 3) := by decide +kernel
theorem dL_law_1267 : decode cL_law 1267 = .ok (.aload_n 3, 1) := by decide +kernel
theorem dL_law_1268 : decode cL_law 1268 = .ok (.iconst 0, 1) := by decide +kernel
theorem dL_law_1269 : decode cL_law 1269 = .ok (.laload, 1) := by decide +kernel
theorem dL_law_1270 : decode cL_law 1270 = .ok (.iload 6, 2) := by decide +kernel
theorem dL_law_1272 : decode cL_law 1272 = .ok (.i2l, 1) := by decide +kernel
theorem dL_law_1273 : decode cL_law 1273 = .ok (.lcmp, 1) := by decide +kernel
theorem dL_law_1274 : decode cL_law 1274 = .ok (.ifCond .eq 5, 3) := by decide +kernel
theorem dL_law_1277 : decode cL_law 1277 = .ok (.iconst 0, 1) := by decide +kernel
theorem dL_law_1278 : decode cL_law 1278 = .ok (.ireturn, 1) := by decide +kernel
theorem dL_law_1279 : decode cL_law 1279 = .ok (.goto 1627, 3) := by decide +kernel
theorem dL_law_1282 : decode cL_law 1282 = .ok (.aload_n 1, 1) := by decide +kernel
theorem dL_law_1283 : decode cL_law 1283 = .ok (.aload_n 0, 1) := by decide +kernel
theorem dL_law_1284 : decode cL_law 1284 = .ok (.iload 4, 2) := by decide +kernel
theorem dL_law_1286 : decode cL_law 1286 = .ok (.iconst 1, 1) := by decide +kernel
theorem dL_law_1287 : decode cL_law 1287 = .ok (.iadd, 1) := by decide +kernel
theorem dL_law_1288 : decode cL_law 1288 = .ok (.iaload, 1) := by decide +kernel
theorem dL_law_1289 : decode cL_law 1289 = .ok (.aload_n 0, 1) := by decide +kernel
theorem dL_law_1290 : decode cL_law 1290 = .ok (.iload 4, 2) := by decide +kernel
theorem dL_law_1292 : decode cL_law 1292 = .ok (.iconst 2, 1) := by decide +kernel
theorem dL_law_1293 : decode cL_law 1293 = .ok (.iadd, 1) := by decide +kernel
theorem dL_law_1294 : decode cL_law 1294 = .ok (.iaload, 1) := by decide +kernel
theorem dL_law_1295 : decode cL_law 1295 = .ok (.aload_n 3, 1) := by decide +kernel
theorem dL_law_1296 : decode cL_law 1296 = .ok (.invokestatic 192, 3) := by decide +kernel
theorem dL_law_1299 : decode cL_law 1299 = .ok (.istore 5, 2) := by decide +kernel
theorem dL_law_1301 : decode cL_law 1301 = .ok (.aload_n 2, 1) := by decide +kernel
theorem dL_law_1302 : decode cL_law 1302 = .ok (.aload_n 0, 1) := by decide +kernel
theorem dL_law_1303 : decode cL_law 1303 = .ok (.iload 4, 2) := by decide +kernel
theorem dL_law_1305 : decode cL_law 1305 = .ok (.iconst 1, 1) := by decide +kernel
theorem dL_law_1306 : decode cL_law 1306 = .ok (.iadd, 1) := by decide +kernel
theorem dL_law_1307 : decode cL_law 1307 = .ok (.iaload, 1) := by decide +kernel
theorem dL_law_1308 : decode cL_law 1308 = .ok (.aload_n 0, 1) := by decide +kernel
theorem dL_law_1309 : decode cL_law 1309 = .ok (.iload 4, 2) := by decide +kernel
theorem dL_law_1311 : decode cL_law 1311 = .ok (.iconst 2, 1) := by decide +kernel
theorem dL_law_1312 : decode cL_law 1312 = .ok (.iadd, 1) := by decide +kernel
theorem dL_law_1313 : decode cL_law 1313 = .ok (.iaload, 1) := by decide +kernel
theorem dL_law_1314 : decode cL_law 1314 = .ok (.invokevirtual 194, 3) := by decide +kernel
theorem dL_law_1317 : decode cL_law 1317 = .ok (.istore 6, 2) := by decide +kernel
theorem dL_law_1319 : decode cL_law 1319 = .ok (.aload_n 2, 1) := by decide +kernel
theorem dL_law_1320 : decode cL_law 1320 = .ok (.invokevirtual 144, 3) := by decide +kernel
theorem dL_law_1323 : decode cL_law 1323 = .ok (.iload 5, 2) := by decide +kernel
theorem dL_law_1325 : decode cL_law 1325 = .ok (.if_icmp .eq 5, 3) := by decide +kernel
theorem dL_law_1328 : decode cL_law 1328 = .ok (.iconst 0, 1) := by decide +kernel
theorem dL_law_1329 : decode cL_law 1329 = .ok (.ireturn, 1) := by decide +kernel
theorem dL_law_1330 : decode cL_law 1330 = .ok (.iload 5, 2) := by decide +kernel
theorem dL_law_1332 : decode cL_law 1332 = .ok (.ifCond .ne 22, 3) := by decide +kernel
theorem dL_law_1335 : decode cL_law 1335 = .ok (.aload_n 3, 1) := by decide +kernel
theorem dL_law_1336 : decode cL_law 1336 = .ok (.iconst 0, 1) := by decide +kernel
theorem dL_law_1337 : decode cL_law 1337 = .ok (.laload, 1) := by decide +kernel
theorem dL_law_1338 : decode cL_law 1338 = .ok (.iload 6, 2) := by decide +kernel
theorem dL_law_1340 : decode cL_law 1340 = .ok (.ifCond .eq 7, 3) := by decide +kernel
theorem dL_law_1343 : decode cL_law 1343 = .ok (.lconst 1, 1) := by decide +kernel
theorem dL_law_1344 : decode cL_law 1344 = .ok (.goto 4, 3) := by decide +kernel
theorem dL_law_1347 : decode cL_law 1347 = .ok (.lconst 0, 1) := by decide +kernel
theorem dL_law_1348 : decode cL_law 1348 = .ok (.lcmp, 1) := by decide +kernel
theorem dL_law_1349 : decode cL_law 1349 = .ok (.ifCond .eq 5, 3) := by decide +kernel
theorem dL_law_1352 : decode cL_law 1352 = .ok (.iconst 0, 1) := by decide +kernel
theorem dL_law_1353 : decode cL_law 1353 = .ok (.ireturn, 1) := by decide +kernel
theorem dL_law_1354 : decode cL_law 1354 = .ok (.goto 1552, 3) := by decide +kernel
theorem dL_law_1357 : decode cL_law 1357 = .ok (.aload_n 1, 1) := by decide +kernel
theorem dL_law_1358 : decode cL_law 1358 = .ok (.aload_n 0, 1) := by decide +kernel
theorem dL_law_1359 : decode cL_law 1359 = .ok (.iload 4, 2) := by decide +kernel
theorem dL_law_1361 : decode cL_law 1361 = .ok (.iconst 1, 1) := by decide +kernel
theorem dL_law_1362 : decode cL_law 1362 = .ok (.iadd, 1) := by decide +kernel
theorem dL_law_1363 : decode cL_law 1363 = .ok (.iaload, 1) := by decide +kernel
theorem dL_law_1364 : decode cL_law 1364 = .ok (.aload_n 0, 1) := by decide +kernel
theorem dL_law_1365 : decode cL_law 1365 = .ok (.iload 4, 2) := by decide +kernel
theorem dL_law_1367 : decode cL_law 1367 = .ok (.iconst 2, 1) := by decide +kernel
theorem dL_law_1368 : decode cL_law 1368 = .ok (.iadd, 1) := by decide +kernel
theorem dL_law_1369 : decode cL_law 1369 = .ok (.iaload, 1) := by decide +kernel
theorem dL_law_1370 : decode cL_law 1370 = .ok (.aload_n 3, 1) := by decide +kernel
theorem dL_law_1371 : decode cL_law 1371 = .ok (.invokestatic 195, 3) := by decide +kernel
theorem dL_law_1374 : decode cL_law 1374 = .ok (.istore 5, 2) := by decide +kernel
theorem dL_law_1376 : decode cL_law 1376 = .ok (.aload_n 2, 1) := by decide +kernel
theorem dL_law_1377 : decode cL_law 1377 = .ok (.aload_n 0, 1) := by decide +kernel
theorem dL_law_1378 : decode cL_law 1378 = .ok (.iload 4, 2) := by decide +kernel
theorem dL_law_1380 : decode cL_law 1380 = .ok (.iconst 1, 1) := by decide +kernel
theorem dL_law_1381 : decode cL_law 1381 = .ok (.iadd, 1) := by decide +kernel
theorem dL_law_1382 : decode cL_law 1382 = .ok (.iaload, 1) := by decide +kernel
theorem dL_law_1383 : decode cL_law 1383 = .ok (.aload_n 0, 1) := by decide +kernel
theorem dL_law_1384 : decode cL_law 1384 = .ok (.iload 4, 2) := by decide +kernel
theorem dL_law_1386 : decode cL_law 1386 = .ok (.iconst 2, 1) := by decide +kernel
theorem dL_law_1387 : decode cL_law 1387 = .ok (.iadd, 1) := by decide +kernel
theorem dL_law_1388 : decode cL_law 1388 = .ok (.iaload, 1) := by decide +kernel
theorem dL_law_1389 : decode cL_law 1389 = .ok (.invokevirtual 197, 3) := by decide +kernel
theorem dL_law_1392 : decode cL_law 1392 = .ok (.istore 6, 2) := by decide +kernel
theorem dL_law_1394 : decode cL_law 1394 = .ok (.aload_n 2, 1) := by decide +kernel
theorem dL_law_1395 : decode cL_law 1395 = .ok (.invokevirtual 144, 3) := by decide +kernel
theorem dL_law_1398 : decode cL_law 1398 = .ok (.iload 5, 2) := by decide +kernel
theorem dL_law_1400 : decode cL_law 1400 = .ok (.if_icmp .eq 5, 3) := by decide +kernel
theorem dL_law_1403 : decode cL_law 1403 = .ok (.iconst 0, 1) := by decide +kernel
theorem dL_law_1404 : decode cL_law 1404 = .ok (.ireturn, 1) := by decide +kernel
theorem dL_law_1405 : decode cL_law 1405 = .ok (.iload 5, 2) := by decide +kernel
theorem dL_law_1407 : decode cL_law 1407 = .ok (.ifCond .ne 22, 3) := by decide +kernel
theorem dL_law_1410 : decode cL_law 1410 = .ok (.aload_n 3, 1) := by decide +kernel
theorem dL_law_1411 : decode cL_law 1411 = .ok (.iconst 0, 1) := by decide +kernel
theorem dL_law_1412 : decode cL_law 1412 = .ok (.laload, 1) := by decide +kernel
theorem dL_law_1413 : decode cL_law 1413 = .ok (.iload 6, 2) := by decide +kernel
theorem dL_law_1415 : decode cL_law 1415 = .ok (.ifCond .eq 7, 3) := by decide +kernel
theorem dL_law_1418 : decode cL_law 1418 = .ok (.lconst 1, 1) := by decide +kernel
theorem dL_law_1419 : decode cL_law 1419 = .ok (.goto 4, 3) := by decide +kernel
theorem dL_law_1422 : decode cL_law 1422 = .ok (.lconst 0, 1) := by decide +kernel
theorem dL_law_1423 : decode cL_law 1423 = .ok (.lcmp, 1) := by decide +kernel
theorem dL_law_1424 : decode cL_law 1424 = .ok (.ifCond .eq 5, 3) := by decide +kernel
theorem dL_law_1427 : decode cL_law 1427 = .ok (.iconst 0, 1) := by decide +kernel
theorem dL_law_1428 : decode cL_law 1428 = .ok (.ireturn, 1) := by decide +kernel
theorem dL_law_1429 : decode cL_law 1429 = .ok (.goto 1477, 3) := by decide +kernel
theorem dL_law_1432 : decode cL_law 1432 = .ok (.aload_n 1, 1) := by decide +kernel
theorem dL_law_1433 : decode cL_law 1433 = .ok (.aload_n 0, 1) := by decide +kernel
theorem dL_law_1434 : decode cL_law 1434 = .ok (.iload 4, 2) := by decide +kernel
theorem dL_law_1436 : decode cL_law 1436 = .ok (.iconst 1, 1) := by decide +kernel
theorem dL_law_1437 : decode cL_law 1437 = .ok (.iadd, 1) := by decide +kernel
theorem dL_law_1438 : decode cL_law 1438 = .ok (.iaload, 1) := by decide +kernel
theorem dL_law_1439 : decode cL_law 1439 = .ok (.aload_n 0, 1) := by decide +kernel
theorem dL_law_1440 : decode cL_law 1440 = .ok (.iload 4, 2) := by decide +kernel
theorem dL_law_1442 : decode cL_law 1442 = .ok (.iconst 2, 1) := by decide +kernel
theorem dL_law_1443 : decode cL_law 1443 = .ok (.iadd, 1) := by decide +kernel
theorem dL_law_1444 : decode cL_law 1444 = .ok (.iaload, 1) := by decide +kernel
theorem dL_law_1445 : decode cL_law 1445 = .ok (.aload_n 3, 1) := by decide +kernel
theorem dL_law_1446 : decode cL_law 1446 = .ok (.invokestatic 198, 3) := by decide +kernel
theorem dL_law_1449 : decode cL_law 1449 = .ok (.istore 5, 2) := by decide +kernel
theorem dL_law_1451 : decode cL_law 1451 = .ok (.aload_n 2, 1) := by decide +kernel
theorem dL_law_1452 : decode cL_law 1452 = .ok (.aload_n 0, 1) := by decide +kernel
theorem dL_law_1453 : decode cL_law 1453 = .ok (.iload 4, 2) := by decide +kernel
theorem dL_law_1455 : decode cL_law 1455 = .ok (.iconst 1, 1) := by decide +kernel
theorem dL_law_1456 : decode cL_law 1456 = .ok (.iadd, 1) := by decide +kernel
theorem dL_law_1457 : decode cL_law 1457 = .ok (.iaload, 1) := by decide +kernel
theorem dL_law_1458 : decode cL_law 1458 = .ok (.aload_n 0, 1) := by decide +kernel
theorem dL_law_1459 : decode cL_law 1459 = .ok (.iload 4, 2) := by decide +kernel
theorem dL_law_1461 : decode cL_law 1461 = .ok (.iconst 2, 1) := by decide +kernel
theorem dL_law_1462 : decode cL_law 1462 = .ok (.iadd, 1) := by decide +kernel
theorem dL_law_1463 : decode cL_law 1463 = .ok (.iaload, 1) := by decide +kernel
theorem dL_law_1464 : decode cL_law 1464 = .ok (.invokevirtual 200, 3) := by decide +kernel
theorem dL_law_1467 : decode cL_law 1467 = .ok (.istore 6, 2) := by decide +kernel
theorem dL_law_1469 : decode cL_law 1469 = .ok (.aload_n 2, 1) := by decide +kernel
theorem dL_law_1470 : decode cL_law 1470 = .ok (.invokevirtual 144, 3) := by decide +kernel
theorem dL_law_1473 : decode cL_law 1473 = .ok (.iload 5, 2) := by decide +kernel
theorem dL_law_1475 : decode cL_law 1475 = .ok (.if_icmp .eq 5, 3) := by decide +kernel
theorem dL_law_1478 : decode cL_law 1478 = .ok (.iconst 0, 1) := by decide +kernel
theorem dL_law_1479 : decode cL_law 1479 = .ok (.ireturn, 1) := by decide +kernel
theorem dL_law_1480 : decode cL_law 1480 = .ok (.iload 5, 2) := by decide +kernel
theorem dL_law_1482 : decode cL_law 1482 = .ok (.ifCond .ne 22, 3) := by decide +kernel
theorem dL_law_1485 : decode cL_law 1485 = .ok (.aload_n 3, 1) := by decide +kernel
theorem dL_law_1486 : decode cL_law 1486 = .ok (.iconst 0, 1) := by decide +kernel
theorem dL_law_1487 : decode cL_law 1487 = .ok (.laload, 1) := by decide +kernel
theorem dL_law_1488 : decode cL_law 1488 = .ok (.iload 6, 2) := by decide +kernel
theorem dL_law_1490 : decode cL_law 1490 = .ok (.ifCond .eq 7, 3) := by decide +kernel
theorem dL_law_1493 : decode cL_law 1493 = .ok (.lconst 1, 1) := by decide +kernel
theorem dL_law_1494 : decode cL_law 1494 = .ok (.goto 4, 3) := by decide +kernel
theorem dL_law_1497 : decode cL_law 1497 = .ok (.lconst 0, 1) := by decide +kernel
theorem dL_law_1498 : decode cL_law 1498 = .ok (.lcmp, 1) := by decide +kernel
theorem dL_law_1499 : decode cL_law 1499 = .ok (.ifCond .eq 5, 3) := by decide +kernel
theorem dL_law_1502 : decode cL_law 1502 = .ok (.iconst 0, 1) := by decide +kernel
theorem dL_law_1503 : decode cL_law 1503 = .ok (.ireturn, 1) := by decide +kernel
theorem dL_law_1504 : decode cL_law 1504 = .ok (.goto 1402, 3) := by decide +kernel
theorem dL_law_1507 : decode cL_law 1507 = .ok (.aload_n 1, 1) := by decide +kernel
theorem dL_law_1508 : decode cL_law 1508 = .ok (.aload_n 0, 1) := by decide +kernel
theorem dL_law_1509 : decode cL_law 1509 = .ok (.iload 4, 2) := by decide +kernel
theorem dL_law_1511 : decode cL_law 1511 = .ok (.iconst 1, 1) := by decide +kernel
theorem dL_law_1512 : decode cL_law 1512 = .ok (.iadd, 1) := by decide +kernel
theorem dL_law_1513 : decode cL_law 1513 = .ok (.iaload, 1) := by decide +kernel
theorem dL_law_1514 : decode cL_law 1514 = .ok (.aload_n 3, 1) := by decide +kernel
theorem dL_law_1515 : decode cL_law 1515 = .ok (.invokestatic 201, 3) := by decide +kernel
theorem dL_law_1518 : decode cL_law 1518 = .ok (.istore 5, 2) := by decide +kernel
theorem dL_law_1520 : decode cL_law 1520 = .ok (.aload_n 2, 1) := by decide +kernel
theorem dL_law_1521 : decode cL_law 1521 = .ok (.aload_n 0, 1) := by decide +kernel
theorem dL_law_1522 : decode cL_law 1522 = .ok (.iload 4, 2) := by decide +kernel
theorem dL_law_1524 : decode cL_law 1524 = .ok (.iconst 1, 1) := by decide +kernel
theorem dL_law_1525 : decode cL_law 1525 = .ok (.iadd, 1) := by decide +kernel
theorem dL_law_1526 : decode cL_law 1526 = .ok (.iaload, 1) := by decide +kernel
theorem dL_law_1527 : decode cL_law 1527 = .ok (.invokevirtual 203, 3) := by decide +kernel
theorem dL_law_1530 : decode cL_law 1530 = .ok (.istore 6, 2) := by decide +kernel
theorem dL_law_1532 : decode cL_law 1532 = .ok (.aload_n 2, 1) := by decide +kernel
theorem dL_law_1533 : decode cL_law 1533 = .ok (.invokevirtual 144, 3) := by decide +kernel
theorem dL_law_1536 : decode cL_law 1536 = .ok (.iload 5, 2) := by decide +kernel
theorem dL_law_1538 : decode cL_law 1538 = .ok (.if_icmp .eq 5, 3) := by decide +kernel
theorem dL_law_1541 : decode cL_law 1541 = .ok (.iconst 0, 1) := by decide +kernel
theorem dL_law_1542 : decode cL_law 1542 = .ok (.ireturn, 1) := by decide +kernel
theorem dL_law_1543 : decode cL_law 1543 = .ok (.iload 5, 2) := by decide +kernel
theorem dL_law_1545 : decode cL_law 1545 = .ok (.ifCond .ne 15, 3) := by decide +kernel
theorem dL_law_1548 : decode cL_law 1548 = .ok (.aload_n 3, 1) := by decide +kernel
theorem dL_law_1549 : decode cL_law 1549 = .ok (.iconst 0, 1) := by decide +kernel
theorem dL_law_1550 : decode cL_law 1550 = .ok (.laload, 1) := by decide +kernel
theorem dL_law_1551 : decode cL_law 1551 = .ok (.iload 6, 2) := by decide +kernel
theorem dL_law_1553 : decode cL_law 1553 = .ok (.i2l, 1) := by decide +kernel
theorem dL_law_1554 : decode cL_law 1554 = .ok (.lcmp, 1) := by decide +kernel
theorem dL_law_1555 : decode cL_law 1555 = .ok (.ifCond .eq 5, 3) := by decide +kernel
theorem dL_law_1558 : decode cL_law 1558 = .ok (.iconst 0, 1) := by decide +kernel
theorem dL_law_1559 : decode cL_law 1559 = .ok (.ireturn, 1) := by decide +kernel
theorem dL_law_1560 : decode cL_law 1560 = .ok (.goto 1346, 3) := by decide +kernel
theorem dL_law_1563 : decode cL_law 1563 = .ok (.aload_n 1, 1) := by decide +kernel
theorem dL_law_1564 : decode cL_law 1564 = .ok (.aload_n 0, 1) := by decide +kernel
theorem dL_law_1565 : decode cL_law 1565 = .ok (.iload 4, 2) := by decide +kernel
theorem dL_law_1567 : decode cL_law 1567 = .ok (.iconst 1, 1) := by decide +kernel
theorem dL_law_1568 : decode cL_law 1568 = .ok (.iadd, 1) := by decide +kernel
theorem dL_law_1569 : decode cL_law 1569 = .ok (.iaload, 1) := by decide +kernel
theorem dL_law_1570 : decode cL_law 1570 = .ok (.aload_n 0, 1) := by decide +kernel
theorem dL_law_1571 : decode cL_law 1571 = .ok (.iload 4, 2) := by decide +kernel
theorem dL_law_1573 : decode cL_law 1573 = .ok (.iconst 2, 1) := by decide +kernel
theorem dL_law_1574 : decode cL_law 1574 = .ok (.iadd, 1) := by decide +kernel
theorem dL_law_1575 : decode cL_law 1575 = .ok (.iaload, 1) := by decide +kernel
theorem dL_law_1576 : decode cL_law 1576 = .ok (.aload_n 3, 1) := by decide +kernel
theorem dL_law_1577 : decode cL_law 1577 = .ok (.invokestatic 204, 3) := by decide +kernel
theorem dL_law_1580 : decode cL_law 1580 = .ok (.istore 5, 2) := by decide +kernel
theorem dL_law_1582 : decode cL_law 1582 = .ok (.aload_n 2, 1) := by decide +kernel
theorem dL_law_1583 : decode cL_law 1583 = .ok (.aload_n 0, 1) := by decide +kernel
theorem dL_law_1584 : decode cL_law 1584 = .ok (.iload 4, 2) := by decide +kernel
theorem dL_law_1586 : decode cL_law 1586 = .ok (.iconst 1, 1) := by decide +kernel
theorem dL_law_1587 : decode cL_law 1587 = .ok (.iadd, 1) := by decide +kernel
theorem dL_law_1588 : decode cL_law 1588 = .ok (.iaload, 1) := by decide +kernel
theorem dL_law_1589 : decode cL_law 1589 = .ok (.aload_n 0, 1) := by decide +kernel
theorem dL_law_1590 : decode cL_law 1590 = .ok (.iload 4, 2) := by decide +kernel
theorem dL_law_1592 : decode cL_law 1592 = .ok (.iconst 2, 1) := by decide +kernel
theorem dL_law_1593 : decode cL_law 1593 = .ok (.iadd, 1) := by decide +kernel
theorem dL_law_1594 : decode cL_law 1594 = .ok (.iaload, 1) := by decide +kernel
theorem dL_law_1595 : decode cL_law 1595 = .ok (.invokevirtual 206, 3) := by decide +kernel
theorem dL_law_1598 : decode cL_law 1598 = .ok (.istore 6, 2) := by decide +kernel
theorem dL_law_1600 : decode cL_law 1600 = .ok (.aload_n 2, 1) := by decide +kernel
theorem dL_law_1601 : decode cL_law 1601 = .ok (.invokevirtual 144, 3) := by decide +kernel
theorem dL_law_1604 : decode cL_law 1604 = .ok (.iload 5, 2) := by decide +kernel
theorem dL_law_1606 : decode cL_law 1606 = .ok (.if_icmp .eq 5, 3) := by decide +kernel
theorem dL_law_1609 : decode cL_law 1609 = .ok (.iconst 0, 1) := by decide +kernel
theorem dL_law_1610 : decode cL_law 1610 = .ok (.ireturn, 1) := by decide +kernel
theorem dL_law_1611 : decode cL_law 1611 = .ok (.iload 5, 2) := by decide +kernel
theorem dL_law_1613 : decode cL_law 1613 = .ok (.ifCond .ne 15, 3) := by decide +kernel
theorem dL_law_1616 : decode cL_law 1616 = .ok (.aload_n 3, 1) := by decide +kernel
theorem dL_law_1617 : decode cL_law 1617 = .ok (.iconst 0, 1) := by decide +kernel
theorem dL_law_1618 : decode cL_law 1618 = .ok (.laload, 1) := by decide +kernel
theorem dL_law_1619 : decode cL_law 1619 = .ok (.iload 6, 2) := by decide +kernel
theorem dL_law_1621 : decode cL_law 1621 = .ok (.i2l, 1) := by decide +kernel
theorem dL_law_1622 : decode cL_law 1622 = .ok (.lcmp, 1) := by decide +kernel
theorem dL_law_1623 : decode cL_law 1623 = .ok (.ifCond .eq 5, 3) := by decide +kernel
theorem dL_law_1626 : decode cL_law 1626 = .ok (.iconst 0, 1) := by decide +kernel
theorem dL_law_1627 : decode cL_law 1627 = .ok (.ireturn, 1) := by decide +kernel
theorem dL_law_1628 : decode cL_law 1628 = .ok (.goto 1278, 3) := by decide +kernel
theorem dL_law_1631 : decode cL_law 1631 = .ok (.aload_n 1, 1) := by decide +kernel
theorem dL_law_1632 : decode cL_law 1632 = .ok (.aload_n 0, 1) := by decide +kernel
theorem dL_law_1633 : decode cL_law 1633 = .ok (.iload 4, 2) := by decide +kernel
theorem dL_law_1635 : decode cL_law 1635 = .ok (.iconst 1, 1) := by decide +kernel
theorem dL_law_1636 : decode cL_law 1636 = .ok (.iadd, 1) := by decide +kernel
theorem dL_law_1637 : decode cL_law 1637 = .ok (.iaload, 1) := by decide +kernel
theorem dL_law_1638 : decode cL_law 1638 = .ok (.aload_n 3, 1) := by decide +kernel
theorem dL_law_1639 : decode cL_law 1639 = .ok (.invokestatic 207, 3) := by decide +kernel
theorem dL_law_1642 : decode cL_law 1642 = .ok (.istore 5, 2) := by decide +kernel
theorem dL_law_1644 : decode cL_law 1644 = .ok (.aload_n 2, 1) := by decide +kernel
theorem dL_law_1645 : decode cL_law 1645 = .ok (.aload_n 0, 1) := by decide +kernel
theorem dL_law_1646 : decode cL_law 1646 = .ok (.iload 4, 2) := by decide +kernel
theorem dL_law_1648 : decode cL_law 1648 = .ok (.iconst 1, 1) := by decide +kernel
theorem dL_law_1649 : decode cL_law 1649 = .ok (.iadd, 1) := by decide +kernel
theorem dL_law_1650 : decode cL_law 1650 = .ok (.iaload, 1) := by decide +kernel
theorem dL_law_1651 : decode cL_law 1651 = .ok (.invokevirtual 209, 3) := by decide +kernel
theorem dL_law_1654 : decode cL_law 1654 = .ok (.istore 6, 2) := by decide +kernel
theorem dL_law_1656 : decode cL_law 1656 = .ok (.aload_n 2, 1) := by decide +kernel
theorem dL_law_1657 : decode cL_law 1657 = .ok (.invokevirtual 144, 3) := by decide +kernel
theorem dL_law_1660 : decode cL_law 1660 = .ok (.iload 5, 2) := by decide +kernel
theorem dL_law_1662 : decode cL_law 1662 = .ok (.if_icmp .eq 5, 3) := by decide +kernel
theorem dL_law_1665 : decode cL_law 1665 = .ok (.iconst 0, 1) := by decide +kernel
theorem dL_law_1666 : decode cL_law 1666 = .ok (.ireturn, 1) := by decide +kernel
theorem dL_law_1667 : decode cL_law 1667 = .ok (.iload 5, 2) := by decide +kernel
theorem dL_law_1669 : decode cL_law 1669 = .ok (.ifCond .ne 22, 3) := by decide +kernel
theorem dL_law_1672 : decode cL_law 1672 = .ok (.aload_n 3, 1) := by decide +kernel
theorem dL_law_1673 : decode cL_law 1673 = .ok (.iconst 0, 1) := by decide +kernel
theorem dL_law_1674 : decode cL_law 1674 = .ok (.laload, 1) := by decide +kernel
theorem dL_law_1675 : decode cL_law 1675 = .ok (.iload 6, 2) := by decide +kernel
theorem dL_law_1677 : decode cL_law 1677 = .ok (.ifCond .eq 7, 3) := by decide +kernel
theorem dL_law_1680 : decode cL_law 1680 = .ok (.lconst 1, 1) := by decide +kernel
theorem dL_law_1681 : decode cL_law 1681 = .ok (.goto 4, 3) := by decide +kernel
theorem dL_law_1684 : decode cL_law 1684 = .ok (.lconst 0, 1) := by decide +kernel
theorem dL_law_1685 : decode cL_law 1685 = .ok (.lcmp, 1) := by decide +kernel
theorem dL_law_1686 : decode cL_law 1686 = .ok (.ifCond .eq 5, 3) := by decide +kernel
theorem dL_law_1689 : decode cL_law 1689 = .ok (.iconst 0, 1) := by decide +kernel
theorem dL_law_1690 : decode cL_law 1690 = .ok (.ireturn, 1) := by decide +kernel
theorem dL_law_1691 : decode cL_law 1691 = .ok (.goto 1215, 3) := by decide +kernel
theorem dL_law_1694 : decode cL_law 1694 = .ok (.aload_n 1, 1) := by decide +kernel
theorem dL_law_1695 : decode cL_law 1695 = .ok (.aload_n 0, 1) := by decide +kernel
theorem dL_law_1696 : decode cL_law 1696 = .ok (.iload 4, 2) := by decide +kernel
theorem dL_law_1698 : decode cL_law 1698 = .ok (.iconst 1, 1) := by decide +kernel
theorem dL_law_1699 : decode cL_law 1699 = .ok (.iadd, 1) := by decide +kernel
theorem dL_law_1700 : decode cL_law 1700 = .ok (.iaload, 1) := by decide +kernel
theorem dL_law_1701 : decode cL_law 1701 = .ok (.aload_n 3, 1) := by decide +kernel
theorem dL_law_1702 : decode cL_law 1702 = .ok (.invokestatic 210, 3) := by decide +kernel
theorem dL_law_1705 : decode cL_law 1705 = .ok (.istore 5, 2) := by decide +kernel
theorem dL_law_1707 : decode cL_law 1707 = .ok (.aload_n 2, 1) := by decide +kernel
theorem dL_law_1708 : decode cL_law 1708 = .ok (.aload_n 0, 1) := by decide +kernel
theorem dL_law_1709 : decode cL_law 1709 = .ok (.iload 4, 2) := by decide +kernel
theorem dL_law_1711 : decode cL_law 1711 = .ok (.iconst 1, 1) := by decide +kernel
theorem dL_law_1712 : decode cL_law 1712 = .ok (.iadd, 1) := by decide +kernel
theorem dL_law_1713 : decode cL_law 1713 = .ok (.iaload, 1) := by decide +kernel
theorem dL_law_1714 : decode cL_law 1714 = .ok (.invokevirtual 212, 3) := by decide +kernel
theorem dL_law_1717 : decode cL_law 1717 = .ok (.istore 6, 2) := by decide +kernel
theorem dL_law_1719 : decode cL_law 1719 = .ok (.aload_n 2, 1) := by decide +kernel
theorem dL_law_1720 : decode cL_law 1720 = .ok (.invokevirtual 144, 3) := by decide +kernel
theorem dL_law_1723 : decode cL_law 1723 = .ok (.iload 5, 2) := by decide +kernel
theorem dL_law_1725 : decode cL_law 1725 = .ok (.if_icmp .eq 5, 3) := by decide +kernel
theorem dL_law_1728 : decode cL_law 1728 = .ok (.iconst 0, 1) := by decide +kernel
theorem dL_law_1729 : decode cL_law 1729 = .ok (.ireturn, 1) := by decide +kernel
theorem dL_law_1730 : decode cL_law 1730 = .ok (.iload 5, 2) := by decide +kernel
theorem dL_law_1732 : decode cL_law 1732 = .ok (.ifCond .ne 22, 3) := by decide +kernel
theorem dL_law_1735 : decode cL_law 1735 = .ok (.aload_n 3, 1) := by decide +kernel
theorem dL_law_1736 : decode cL_law 1736 = .ok (.iconst 0, 1) := by decide +kernel
theorem dL_law_1737 : decode cL_law 1737 = .ok (.laload, 1) := by decide +kernel
theorem dL_law_1738 : decode cL_law 1738 = .ok (.iload 6, 2) := by decide +kernel
theorem dL_law_1740 : decode cL_law 1740 = .ok (.ifCond .eq 7, 3) := by decide +kernel
theorem dL_law_1743 : decode cL_law 1743 = .ok (.lconst 1, 1) := by decide +kernel
theorem dL_law_1744 : decode cL_law 1744 = .ok (.goto 4, 3) := by decide +kernel
theorem dL_law_1747 : decode cL_law 1747 = .ok (.lconst 0, 1) := by decide +kernel
theorem dL_law_1748 : decode cL_law 1748 = .ok (.lcmp, 1) := by decide +kernel
theorem dL_law_1749 : decode cL_law 1749 = .ok (.ifCond .eq 5, 3) := by decide +kernel
theorem dL_law_1752 : decode cL_law 1752 = .ok (.iconst 0, 1) := by decide +kernel
theorem dL_law_1753 : decode cL_law 1753 = .ok (.ireturn, 1) := by decide +kernel
theorem dL_law_1754 : decode cL_law 1754 = .ok (.goto 1152, 3) := by decide +kernel
theorem dL_law_1757 : decode cL_law 1757 = .ok (.aload_n 1, 1) := by decide +kernel
theorem dL_law_1758 : decode cL_law 1758 = .ok (.aload_n 0, 1) := by decide +kernel
theorem dL_law_1759 : decode cL_law 1759 = .ok (.iload 4, 2) := by decide +kernel
theorem dL_law_1761 : decode cL_law 1761 = .ok (.iconst 1, 1) := by decide +kernel
theorem dL_law_1762 : decode cL_law 1762 = .ok (.iadd, 1) := by decide +kernel
theorem dL_law_1763 : decode cL_law 1763 = .ok (.iaload, 1) := by decide +kernel
theorem dL_law_1764 : decode cL_law 1764 = .ok (.aload_n 3, 1) := by decide +kernel
theorem dL_law_1765 : decode cL_law 1765 = .ok (.invokestatic 213, 3) := by decide +kernel
theorem dL_law_1768 : decode cL_law 1768 = .ok (.istore 5, 2) := by decide +kernel
theorem dL_law_1770 : decode cL_law 1770 = .ok (.aload_n 2, 1) := by decide +kernel
theorem dL_law_1771 : decode cL_law 1771 = .ok (.aload_n 0, 1) := by decide +kernel
theorem dL_law_1772 : decode cL_law 1772 = .ok (.iload 4, 2) := by decide +kernel
theorem dL_law_1774 : decode cL_law 1774 = .ok (.iconst 1, 1) := by decide +kernel
theorem dL_law_1775 : decode cL_law 1775 = .ok (.iadd, 1) := by decide +kernel
theorem dL_law_1776 : decode cL_law 1776 = .ok (.iaload, 1) := by decide +kernel
theorem dL_law_1777 : decode cL_law 1777 = .ok (.invokevirtual 215, 3) := by decide +kernel
theorem dL_law_1780 : decode cL_law 1780 = .ok (.istore 6, 2) := by decide +kernel
theorem dL_law_1782 : decode cL_law 1782 = .ok (.aload_n 2, 1) := by decide +kernel
theorem dL_law_1783 : decode cL_law 1783 = .ok (.invokevirtual 144, 3) := by decide +kernel
theorem dL_law_1786 : decode cL_law 1786 = .ok (.iload 5, 2) := by decide +kernel
theorem dL_law_1788 : decode cL_law 1788 = .ok (.if_icmp .eq 5, 3) := by decide +kernel
theorem dL_law_1791 : decode cL_law 1791 = .ok (.iconst 0, 1) := by decide +kernel
theorem dL_law_1792 : decode cL_law 1792 = .ok (.ireturn, 1) := by decide +kernel
theorem dL_law_1793 : decode cL_law 1793 = .ok (.iload 5, 2) := by decide +kernel
theorem dL_law_1795 : decode cL_law 1795 = .ok (.ifCond .ne 22, 3) := by decide +kernel
theorem dL_law_1798 : decode cL_law 1798 = .ok (.aload_n 3, 1) := by decide +kernel
theorem dL_law_1799 : decode cL_law 1799 = .ok (.iconst 0, 1) := by decide +kernel
theorem dL_law_1800 : decode cL_law 1800 = .ok (.laload, 1) := by decide +kernel
theorem dL_law_1801 : decode cL_law 1801 = .ok (.iload 6, 2) := by decide +kernel
theorem dL_law_1803 : decode cL_law 1803 = .ok (.ifCond .eq 7, 3) := by decide +kernel
theorem dL_law_1806 : decode cL_law 1806 = .ok (.lconst 1, 1) := by decide +kernel
theorem dL_law_1807 : decode cL_law 1807 = .ok (.goto 4, 3) := by decide +kernel
theorem dL_law_1810 : decode cL_law 1810 = .ok (.lconst 0, 1) := by decide +kernel
theorem dL_law_1811 : decode cL_law 1811 = .ok (.lcmp, 1) := by decide +kernel
theorem dL_law_1812 : decode cL_law 1812 = .ok (.ifCond .eq 5, 3) := by decide +kernel
theorem dL_law_1815 : decode cL_law 1815 = .ok (.iconst 0, 1) := by decide +kernel
theorem dL_law_1816 : decode cL_law 1816 = .ok (.ireturn, 1) := by decide +kernel
theorem dL_law_1817 : decode cL_law 1817 = .ok (.goto 1089, 3) := by decide +kernel
theorem dL_law_1820 : decode cL_law 1820 = .ok (.aload_n 1, 1) := by decide +kernel
theorem dL_law_1821 : decode cL_law 1821 = .ok (.invokevirtual 216, 3) := by decide +kernel
theorem dL_law_1824 : decode cL_law 1824 = .ok (.aload_n 2, 1) := by decide +kernel
theorem dL_law_1825 : decode cL_law 1825 = .ok (.invokevirtual 219, 3) := by decide +kernel
theorem dL_law_1828 : decode cL_law 1828 = .ok (.if_icmp .eq 1078, 3) := by decide +kernel
theorem dL_law_1831 : decode cL_law 1831 = .ok (.iconst 0, 1) := by decide +kernel
theorem dL_law_1832 : decode cL_law 1832 = .ok (.ireturn, 1) := by decide +kernel
theorem dL_law_1833 : decode cL_law 1833 = .ok (.aload_n 1, 1) := by decide +kernel
theorem dL_law_1834 : decode cL_law 1834 = .ok (.invokevirtual 220, 3) := by decide +kernel
theorem dL_law_1837 : decode cL_law 1837 = .ok (.aload_n 2, 1) := by decide +kernel
theorem dL_law_1838 : decode cL_law 1838 = .ok (.invokevirtual 223, 3) := by decide +kernel
theorem dL_law_1841 : decode cL_law 1841 = .ok (.if_icmp .eq 1065, 3) := by decide +kernel
theorem dL_law_1844 : decode cL_law 1844 = .ok (.iconst 0, 1) := by decide +kernel
theorem dL_law_1845 : decode cL_law 1845 = .ok (.ireturn, 1) := by decide +kernel
theorem dL_law_1846 : decode cL_law 1846 = .ok (.aload_n 1, 1) := by decide +kernel
theorem dL_law_1847 : decode cL_law 1847 = .ok (.invokevirtual 224, 3) := by decide +kernel
theorem dL_law_1850 : decode cL_law 1850 = .ok (.aload_n 2, 1) := by decide +kernel
theorem dL_law_1851 : decode cL_law 1851 = .ok (.invokevirtual 227, 3) := by decide +kernel
theorem dL_law_1854 : decode cL_law 1854 = .ok (.if_icmp .eq 1052, 3) := by decide +kernel
theorem dL_law_1857 : decode cL_law 1857 = .ok (.iconst 0, 1) := by decide +kernel
theorem dL_law_1858 : decode cL_law 1858 = .ok (.ireturn, 1) := by decide +kernel
theorem dL_law_1859 : decode cL_law 1859 = .ok (.aload_n 1, 1) := by decide +kernel
theorem dL_law_1860 : decode cL_law 1860 = .ok (.aload_n 0, 1) := by decide +kernel
theorem dL_law_1861 : decode cL_law 1861 = .ok (.iload 4, 2) := by decide +kernel
theorem dL_law_1863 : decode cL_law 1863 = .ok (.iconst 1, 1) := by decide +kernel
theorem dL_law_1864 : decode cL_law 1864 = .ok (.iadd, 1) := by decide +kernel
theorem dL_law_1865 : decode cL_law 1865 = .ok (.iaload, 1) := by decide +kernel
theorem dL_law_1866 : decode cL_law 1866 = .ok (.aload_n 3, 1) := by decide +kernel
theorem dL_law_1867 : decode cL_law 1867 = .ok (.invokestatic 228, 3) := by decide +kernel
theorem dL_law_1870 : decode cL_law 1870 = .ok (.istore 5, 2) := by decide +kernel
theorem dL_law_1872 : decode cL_law 1872 = .ok (.aload_n 2, 1) := by decide +kernel
theorem dL_law_1873 : decode cL_law 1873 = .ok (.aload_n 0, 1) := by decide +kernel
theorem dL_law_1874 : decode cL_law 1874 = .ok (.iload 4, 2) := by decide +kernel
theorem dL_law_1876 : decode cL_law 1876 = .ok (.iconst 1, 1) := by decide +kernel
theorem dL_law_1877 : decode cL_law 1877 = .ok (.iadd, 1) := by decide +kernel
theorem dL_law_1878 : decode cL_law 1878 = .ok (.iaload, 1) := by decide +kernel
theorem dL_law_1879 : decode cL_law 1879 = .ok (.invokevirtual 230, 3) := by decide +kernel
theorem dL_law_1882 : decode cL_law 1882 = .ok (.istore 6, 2) := by decide +kernel
theorem dL_law_1884 : decode cL_law 1884 = .ok (.aload_n 2, 1) := by decide +kernel
theorem dL_law_1885 : decode cL_law 1885 = .ok (.invokevirtual 144, 3) := by decide +kernel
theorem dL_law_1888 : decode cL_law 1888 = .ok (.iload 5, 2) := by decide +kernel
theorem dL_law_1890 : decode cL_law 1890 = .ok (.if_icmp .eq 5, 3) := by decide +kernel
theorem dL_law_1893 : decode cL_law 1893 = .ok (.iconst 0, 1) := by decide +kernel
theorem dL_law_1894 : decode cL_law 1894 = .ok (.ireturn, 1) := by decide +kernel
theorem dL_law_1895 : decode cL_law 1895 = .ok (.iload 5, 2) := by decide +kernel
theorem dL_law_1897 : decode cL_law 1897 = .ok (.ifCond .ne 15, 3) := by decide +kernel
theorem dL_law_1900 : decode cL_law 1900 = .ok (.aload_n 3, 1) := by decide +kernel
theorem dL_law_1901 : decode cL_law 1901 = .ok (.iconst 0, 1) := by decide +kernel
theorem dL_law_1902 : decode cL_law 1902 = .ok (.laload, 1) := by decide +kernel
theorem dL_law_1903 : decode cL_law 1903 = .ok (.iload 6, 2) := by decide +kernel
theorem dL_law_1905 : decode cL_law 1905 = .ok (.i2l, 1) := by decide +kernel
theorem dL_law_1906 : decode cL_law 1906 = .ok (.lcmp, 1) := by decide +kernel
theorem dL_law_1907 : decode cL_law 1907 = .ok (.ifCond .eq 5, 3) := by decide +kernel
theorem dL_law_1910 : decode cL_law 1910 = .ok (.iconst 0, 1) := by decide +kernel
theorem dL_law_1911 : decode cL_law 1911 = .ok (.ireturn, 1) := by decide +kernel
theorem dL_law_1912 : decode cL_law 1912 = .ok (.goto 994, 3) := by decide +kernel
theorem dL_law_1915 : decode cL_law 1915 = .ok (.aload_n 1, 1) := by decide +kernel
theorem dL_law_1916 : decode cL_law 1916 = .ok (.aload_n 0, 1) := by decide +kernel
theorem dL_law_1917 : decode cL_law 1917 = .ok (.iload 4, 2) := by decide +kernel
theorem dL_law_1919 : decode cL_law 1919 = .ok (.iconst 1, 1) := by decide +kernel
theorem dL_law_1920 : decode cL_law 1920 = .ok (.iadd, 1) := by decide +kernel
theorem dL_law_1921 : decode cL_law 1921 = .ok (.iaload, 1) := by decide +kernel
theorem dL_law_1922 : decode cL_law 1922 = .ok (.aload_n 0, 1) := by decide +kernel
theorem dL_law_1923 : decode cL_law 1923 = .ok (.iload 4, 2) := by decide +kernel
theorem dL_law_1925 : decode cL_law 1925 = .ok (.iconst 2, 1) := by decide +kernel
theorem dL_law_1926 : decode cL_law 1926 = .ok (.iadd, 1) := by decide +kernel
theorem dL_law_1927 : decode cL_law 1927 = .ok (.iaload, 1) := by decide +kernel
theorem dL_law_1928 : decode cL_law 1928 = .ok (.aload_n 3, 1) := by decide +kernel
theorem dL_law_1929 : decode cL_law 1929 = .ok (.invokestatic 231, 3) := by decide +kernel
theorem dL_law_1932 : decode cL_law 1932 = .ok (.istore 5, 2) := by decide +kernel
theorem dL_law_1934 : decode cL_law 1934 = .ok (.aload_n 2, 1) := by decide +kernel
theorem dL_law_1935 : decode cL_law 1935 = .ok (.aload_n 0, 1) := by decide +kernel
theorem dL_law_1936 : decode cL_law 1936 = .ok (.iload 4, 2) := by decide +kernel
theorem dL_law_1938 : decode cL_law 1938 = .ok (.iconst 1, 1) := by decide +kernel
theorem dL_law_1939 : decode cL_law 1939 = .ok (.iadd, 1) := by decide +kernel
theorem dL_law_1940 : decode cL_law 1940 = .ok (.iaload, 1) := by decide +kernel
theorem dL_law_1941 : decode cL_law 1941 = .ok (.aload_n 0, 1) := by decide +kernel
theorem dL_law_1942 : decode cL_law 1942 = .ok (.iload 4, 2) := by decide +kernel
theorem dL_law_1944 : decode cL_law 1944 = .ok (.iconst 2, 1) := by decide +kernel
theorem dL_law_1945 : decode cL_law 1945 = .ok (.iadd, 1) := by decide +kernel
theorem dL_law_1946 : decode cL_law 1946 = .ok (.iaload, 1) := by decide +kernel
theorem dL_law_1947 : decode cL_law 1947 = .ok (.invokevirtual 233, 3) := by decide +kernel
theorem dL_law_1950 : decode cL_law 1950 = .ok (.istore 6, 2) := by decide +kernel
theorem dL_law_1952 : decode cL_law 1952 = .ok (.aload_n 2, 1) := by decide +kernel
theorem dL_law_1953 : decode cL_law 1953 = .ok (.invokevirtual 144, 3) := by decide +kernel
theorem dL_law_1956 : decode cL_law 1956 = .ok (.iload 5, 2) := by decide +kernel
theorem dL_law_1958 : decode cL_law 1958 = .ok (.if_icmp .eq 5, 3) := by decide +kernel
theorem dL_law_1961 : decode cL_law 1961 = .ok (.iconst 0, 1) := by decide +kernel
theorem dL_law_1962 : decode cL_law 1962 = .ok (.ireturn, 1) := by decide +kernel
theorem dL_law_1963 : decode cL_law 1963 = .ok (.iload 5, 2) := by decide +kernel
theorem dL_law_1965 : decode cL_law 1965 = .ok (.ifCond .ne 15, 3) := by decide +kernel
theorem dL_law_1968 : decode cL_law 1968 = .ok (.aload_n 3, 1) := by decide +kernel
theorem dL_law_1969 : decode cL_law 1969 = .ok (.iconst 0, 1) := by decide +kernel
theorem dL_law_1970 : decode cL_law 1970 = .ok (.laload, 1) := by decide +kernel
theorem dL_law_1971 : decode cL_law 1971 = .ok (.iload 6, 2) := by decide +kernel
theorem dL_law_1973 : decode cL_law 1973 = .ok (.i2l, 1) := by decide +kernel
theorem dL_law_1974 : decode cL_law 1974 = .ok (.lcmp, 1) := by decide +kernel
theorem dL_law_1975 : decode cL_law 1975 = .ok (.ifCond .eq 5, 3) := by decide +kernel
theorem dL_law_1978 : decode cL_law 1978 = .ok (.iconst 0, 1) := by decide +kernel
theorem dL_law_1979 : decode cL_law 1979 = .ok (.ireturn, 1) := by decide +kernel
theorem dL_law_1980 : decode cL_law 1980 = .ok (.goto 926, 3) := by decide +kernel
theorem dL_law_1983 : decode cL_law 1983 = .ok (.aload_n 1, 1) := by decide +kernel
theorem dL_law_1984 : decode cL_law 1984 = .ok (.aload_n 0, 1) := by decide +kernel
theorem dL_law_1985 : decode cL_law 1985 = .ok (.iload 4, 2) := by decide +kernel
theorem dL_law_1987 : decode cL_law 1987 = .ok (.iconst 1, 1) := by decide +kernel
theorem dL_law_1988 : decode cL_law 1988 = .ok (.iadd, 1) := by decide +kernel
theorem dL_law_1989 : decode cL_law 1989 = .ok (.iaload, 1) := by decide +kernel
theorem dL_law_1990 : decode cL_law 1990 = .ok (.aload_n 3, 1) := by decide +kernel
theorem dL_law_1991 : decode cL_law 1991 = .ok (.invokestatic 234, 3) := by decide +kernel
theorem dL_law_1994 : decode cL_law 1994 = .ok (.istore 5, 2) := by decide +kernel
theorem dL_law_1996 : decode cL_law 1996 = .ok (.aload_n 2, 1) := by decide +kernel
theorem dL_law_1997 : decode cL_law 1997 = .ok (.aload_n 0, 1) := by decide +kernel
theorem dL_law_1998 : decode cL_law 1998 = .ok (.iload 4, 2) := by decide +kernel
theorem dL_law_2000 : decode cL_law 2000 = .ok (.iconst 1, 1) := by decide +kernel
theorem dL_law_2001 : decode cL_law 2001 = .ok (.iadd, 1) := by decide +kernel
theorem dL_law_2002 : decode cL_law 2002 = .ok (.iaload, 1) := by decide +kernel
theorem dL_law_2003 : decode cL_law 2003 = .ok (.invokevirtual 236, 3) := by decide +kernel
theorem dL_law_2006 : decode cL_law 2006 = .ok (.istore 6, 2) := by decide +kernel
theorem dL_law_2008 : decode cL_law 2008 = .ok (.aload_n 2, 1) := by decide +kernel
theorem dL_law_2009 : decode cL_law 2009 = .ok (.invokevirtual 144, 3) := by decide +kernel
theorem dL_law_2012 : decode cL_law 2012 = .ok (.iload 5, 2) := by decide +kernel
theorem dL_law_2014 : decode cL_law 2014 = .ok (.if_icmp .eq 5, 3) := by decide +kernel
theorem dL_law_2017 : decode cL_law 2017 = .ok (.iconst 0, 1) := by decide +kernel
theorem dL_law_2018 : decode cL_law 2018 = .ok (.ireturn, 1) := by decide +kernel
theorem dL_law_2019 : decode cL_law 2019 = .ok (.iload 5, 2) := by decide +kernel
theorem dL_law_2021 : decode cL_law 2021 = .ok (.ifCond .ne 15, 3) := by decide +kernel
theorem dL_law_2024 : decode cL_law 2024 = .ok (.aload_n 3, 1) := by decide +kernel
theorem dL_law_2025 : decode cL_law 2025 = .ok (.iconst 0, 1) := by decide +kernel
theorem dL_law_2026 : decode cL_law 2026 = .ok (.laload, 1) := by decide +kernel
theorem dL_law_2027 : decode cL_law 2027 = .ok (.iload 6, 2) := by decide +kernel
theorem dL_law_2029 : decode cL_law 2029 = .ok (.i2l, 1) := by decide +kernel
theorem dL_law_2030 : decode cL_law 2030 = .ok (.lcmp, 1) := by decide +kernel
theorem dL_law_2031 : decode cL_law 2031 = .ok (.ifCond .eq 5, 3) := by decide +kernel
theorem dL_law_2034 : decode cL_law 2034 = .ok (.iconst 0, 1) := by decide +kernel
theorem dL_law_2035 : decode cL_law 2035 = .ok (.ireturn, 1) := by decide +kernel
theorem dL_law_2036 : decode cL_law 2036 = .ok (.goto 870, 3) := by decide +kernel
theorem dL_law_2039 : decode cL_law 2039 = .ok (.aload_n 1, 1) := by decide +kernel
theorem dL_law_2040 : decode cL_law 2040 = .ok (.aload_n 0, 1) := by decide +kernel
theorem dL_law_2041 : decode cL_law 2041 = .ok (.iload 4, 2) := by decide +kernel
theorem dL_law_2043 : decode cL_law 2043 = .ok (.iconst 1, 1) := by decide +kernel
theorem dL_law_2044 : decode cL_law 2044 = .ok (.iadd, 1) := by decide +kernel
theorem dL_law_2045 : decode cL_law 2045 = .ok (.iaload, 1) := by decide +kernel
theorem dL_law_2046 : decode cL_law 2046 = .ok (.aload_n 3, 1) := by decide +kernel
theorem dL_law_2047 : decode cL_law 2047 = .ok (.invokestatic 237, 3) := by decide +kernel
theorem dL_law_2050 : decode cL_law 2050 = .ok (.istore 5, 2) := by decide +kernel
theorem dL_law_2052 : decode cL_law 2052 = .ok (.aload_n 2, 1) := by decide +kernel
theorem dL_law_2053 : decode cL_law 2053 = .ok (.aload_n 0, 1) := by decide +kernel
theorem dL_law_2054 : decode cL_law 2054 = .ok (.iload 4, 2) := by decide +kernel
theorem dL_law_2056 : decode cL_law 2056 = .ok (.iconst 1, 1) := by decide +kernel
theorem dL_law_2057 : decode cL_law 2057 = .ok (.iadd, 1) := by decide +kernel
theorem dL_law_2058 : decode cL_law 2058 = .ok (.iaload, 1) := by decide +kernel
theorem dL_law_2059 : decode cL_law 2059 = .ok (.invokevirtual 239, 3) := by decide +kernel
theorem dL_law_2062 : decode cL_law 2062 = .ok (.istore 6, 2) := by decide +kernel
theorem dL_law_2064 : decode cL_law 2064 = .ok (.aload_n 2, 1) := by decide +kernel
theorem dL_law_2065 : decode cL_law 2065 = .ok (.invokevirtual 144, 3) := by decide +kernel
theorem dL_law_2068 : decode cL_law 2068 = .ok (.iload 5, 2) := by decide +kernel
theorem dL_law_2070 : decode cL_law 2070 = .ok (.if_icmp .eq 5, 3) := by decide +kernel
theorem dL_law_2073 : decode cL_law 2073 = .ok (.iconst 0, 1) := by decide +kernel
theorem dL_law_2074 : decode cL_law 2074 = .ok (.ireturn, 1) := by decide +kernel
theorem dL_law_2075 : decode cL_law 2075 = .ok (.iload 5, 2) := by decide +kernel
theorem dL_law_2077 : decode cL_law 2077 = .ok (.ifCond .ne 22, 3) := by decide +kernel
theorem dL_law_2080 : decode cL_law 2080 = .ok (.aload_n 3, 1) := by decide +kernel
theorem dL_law_2081 : decode cL_law 2081 = .ok (.iconst 0, 1) := by decide +kernel
theorem dL_law_2082 : decode cL_law 2082 = .ok (.laload, 1) := by decide +kernel
theorem dL_law_2083 : decode cL_law 2083 = .ok (.iload 6, 2) := by decide +kernel
theorem dL_law_2085 : decode cL_law 2085 = .ok (.ifCond .eq 7, 3) := by decide +kernel
theorem dL_law_2088 : decode cL_law 2088 = .ok (.lconst 1, 1) := by decide +kernel
theorem dL_law_2089 : decode cL_law 2089 = .ok (.goto 4, 3) := by decide +kernel
theorem dL_law_2092 : decode cL_law 2092 = .ok (.lconst 0, 1) := by decide +kernel
theorem dL_law_2093 : decode cL_law 2093 = .ok (.lcmp, 1) := by decide +kernel
theorem dL_law_2094 : decode cL_law 2094 = .ok (.ifCond .eq 5, 3) := by decide +kernel
theorem dL_law_2097 : decode cL_law 2097 = .ok (.iconst 0, 1) := by decide +kernel
theorem dL_law_2098 : decode cL_law 2098 = .ok (.ireturn, 1) := by decide +kernel
theorem dL_law_2099 : decode cL_law 2099 = .ok (.goto 807, 3) := by decide +kernel
theorem dL_law_2102 : decode cL_law 2102 = .ok (.aload_n 1, 1) := by decide +kernel
theorem dL_law_2103 : decode cL_law 2103 = .ok (.invokevirtual 240, 3) := by decide +kernel
theorem dL_law_2106 : decode cL_law 2106 = .ok (.aload_n 2, 1) := by decide +kernel
theorem dL_law_2107 : decode cL_law 2107 = .ok (.invokevirtual 244, 3) := by decide +kernel
theorem dL_law_2110 : decode cL_law 2110 = .ok (.if_icmp .eq 796, 3) := by decide +kernel
theorem dL_law_2113 : decode cL_law 2113 = .ok (.iconst 0, 1) := by decide +kernel
theorem dL_law_2114 : decode cL_law 2114 = .ok (.ireturn, 1) := by decide +kernel
theorem dL_law_2115 : decode cL_law 2115 = .ok (.aload_n 1, 1) := by decide +kernel
theorem dL_law_2116 : decode cL_law 2116 = .ok (.invokevirtual 245, 3) := by decide +kernel
theorem dL_law_2119 : decode cL_law 2119 = .ok (.aload_n 2, 1) := by decide +kernel
theorem dL_law_2120 : decode cL_law 2120 = .ok (.invokevirtual 248, 3) := by decide +kernel
theorem dL_law_2123 : decode cL_law 2123 = .ok (.if_icmp .eq 783, 3) := by decide +kernel
theorem dL_law_2126 : decode cL_law 2126 = .ok (.iconst 0, 1) := by decide +kernel
theorem dL_law_2127 : decode cL_law 2127 = .ok (.ireturn, 1) := by decide +kernel
theorem dL_law_2128 : decode cL_law 2128 = .ok (.aload_n 1, 1) := by decide +kernel
theorem dL_law_2129 : decode cL_law 2129 = .ok (.aload_n 0, 1) := by decide +kernel
theorem dL_law_2130 : decode cL_law 2130 = .ok (.iload 4, 2) := by decide +kernel
theorem dL_law_2132 : decode cL_law 2132 = .ok (.iconst 1, 1) := by decide +kernel
theorem dL_law_2133 : decode cL_law 2133 = .ok (.iadd, 1) := by decide +kernel
theorem dL_law_2134 : decode cL_law 2134 = .ok (.iaload, 1) := by decide +kernel
theorem dL_law_2135 : decode cL_law 2135 = .ok (.aload_n 3, 1) := by decide +kernel
theorem dL_law_2136 : decode cL_law 2136 = .ok (.invokestatic 249, 3) := by decide +kernel
theorem dL_law_2139 : decode cL_law 2139 = .ok (.istore 5, 2) := by decide +kernel
theorem dL_law_2141 : decode cL_law 2141 = .ok (.aload_n 2, 1) := by decide +kernel
theorem dL_law_2142 : decode cL_law 2142 = .ok (.aload_n 0, 1) := by decide +kernel
theorem dL_law_2143 : decode cL_law 2143 = .ok (.iload 4, 2) := by decide +kernel
theorem dL_law_2145 : decode cL_law 2145 = .ok (.iconst 1, 1) := by decide +kernel
theorem dL_law_2146 : decode cL_law 2146 = .ok (.iadd, 1) := by decide +kernel
theorem dL_law_2147 : decode cL_law 2147 = .ok (.iaload, 1) := by decide +kernel
theorem dL_law_2148 : decode cL_law 2148 = .ok (.invokevirtual 251, 3) := by decide +kernel
theorem dL_law_2151 : decode cL_law 2151 = .ok (.istore 6, 2) := by decide +kernel
theorem dL_law_2153 : decode cL_law 2153 = .ok (.aload_n 2, 1) := by decide +kernel
theorem dL_law_2154 : decode cL_law 2154 = .ok (.invokevirtual 144, 3) := by decide +kernel
theorem dL_law_2157 : decode cL_law 2157 = .ok (.iload 5, 2) := by decide +kernel
theorem dL_law_2159 : decode cL_law 2159 = .ok (.if_icmp .eq 5, 3) := by decide +kernel
theorem dL_law_2162 : decode cL_law 2162 = .ok (.iconst 0, 1) := by decide +kernel
theorem dL_law_2163 : decode cL_law 2163 = .ok (.ireturn, 1) := by decide +kernel
theorem dL_law_2164 : decode cL_law 2164 = .ok (.iload 5, 2) := by decide +kernel
theorem dL_law_2166 : decode cL_law 2166 = .ok (.ifCond .ne 15, 3) := by decide +kernel
theorem dL_law_2169 : decode cL_law 2169 = .ok (.aload_n 3, 1) := by decide +kernel
theorem dL_law_2170 : decode cL_law 2170 = .ok (.iconst 0, 1) := by decide +kernel
theorem dL_law_2171 : decode cL_law 2171 = .ok (.laload, 1) := by decide +kernel
theorem dL_law_2172 : decode cL_law 2172 = .ok (.iload 6, 2) := by decide +kernel
theorem dL_law_2174 : decode cL_law 2174 = .ok (.i2l, 1) := by decide +kernel
theorem dL_law_2175 : decode cL_law 2175 = .ok (.lcmp, 1) := by decide +kernel
theorem dL_law_2176 : decode cL_law 2176 = .ok (.ifCond .eq 5, 3) := by decide +kernel
theorem dL_law_2179 : decode cL_law 2179 = .ok (.iconst 0, 1) := by decide +kernel
theorem dL_law_2180 : decode cL_law 2180 = .ok (.ireturn, 1) := by decide +kernel
theorem dL_law_2181 : decode cL_law 2181 = .ok (.goto 725, 3) := by decide +kernel
theorem dL_law_2184 : decode cL_law 2184 = .ok (.aload_n 1, 1) := by decide +kernel
theorem dL_law_2185 : decode cL_law 2185 = .ok (.aload_n 0, 1) := by decide +kernel
theorem dL_law_2186 : decode cL_law 2186 = .ok (.iload 4, 2) := by decide +kernel
theorem dL_law_2188 : decode cL_law 2188 = .ok (.iconst 1, 1) := by decide +kernel
theorem dL_law_2189 : decode cL_law 2189 = .ok (.iadd, 1) := by decide +kernel
theorem dL_law_2190 : decode cL_law 2190 = .ok (.iaload, 1) := by decide +kernel
theorem dL_law_2191 : decode cL_law 2191 = .ok (.i2l, 1) := by decide +kernel
theorem dL_law_2192 : decode cL_law 2192 = .ok (.bipush 32, 2) := by decide +kernel
theorem dL_law_2194 : decode cL_law 2194 = .ok (.lshl, 1) := by decide +kernel
theorem dL_law_2195 : decode cL_law 2195 = .ok (.aload_n 0, 1) := by decide +kernel
theorem dL_law_2196 : decode cL_law 2196 = .ok (.iload 4, 2) := by decide +kernel
theorem dL_law_2198 : decode cL_law 2198 = .ok (.iconst 2, 1) := by decide +kernel
theorem dL_law_2199 : decode cL_law 2199 = .ok (.iadd, 1) := by decide +kernel
theorem dL_law_2200 : decode cL_law 2200 = .ok (.iaload, 1) := by decide +kernel
theorem dL_law_2201 : decode cL_law 2201 = .ok (.i2l, 1) := by decide +kernel
theorem dL_law_2202 : decode cL_law 2202 = .ok (.ldc2_w 252, 3) := by decide +kernel
theorem dL_law_2205 : decode cL_law 2205 = .ok (.land, 1) := by decide +kernel
theorem dL_law_2206 : decode cL_law 2206 = .ok (.lor, 1) := by decide +kernel
theorem dL_law_2207 : decode cL_law 2207 = .ok (.aload_n 3, 1) := by decide +kernel
theorem dL_law_2208 : decode cL_law 2208 = .ok (.invokestatic 254, 3) := by decide +kernel
theorem dL_law_2211 : decode cL_law 2211 = .ok (.istore 5, 2) := by decide +kernel
theorem dL_law_2213 : decode cL_law 2213 = .ok (.aload_n 2, 1) := by decide +kernel
theorem dL_law_2214 : decode cL_law 2214 = .ok (.aload_n 0, 1) := by decide +kernel
theorem dL_law_2215 : decode cL_law 2215 = .ok (.iload 4, 2) := by decide +kernel
theorem dL_law_2217 : decode cL_law 2217 = .ok (.iconst 1, 1) := by decide +kernel
theorem dL_law_2218 : decode cL_law 2218 = .ok (.iadd, 1) := by decide +kernel
theorem dL_law_2219 : decode cL_law 2219 = .ok (.iaload, 1) := by decide +kernel
theorem dL_law_2220 : decode cL_law 2220 = .ok (.i2l, 1) := by decide +kernel
theorem dL_law_2221 : decode cL_law 2221 = .ok (.bipush 32, 2) := by decide +kernel
theorem dL_law_2223 : decode cL_law 2223 = .ok (.lshl, 1) := by decide +kernel
theorem dL_law_2224 : decode cL_law 2224 = .ok (.aload_n 0, 1) := by decide +kernel
theorem dL_law_2225 : decode cL_law 2225 = .ok (.iload 4, 2) := by decide +kernel
theorem dL_law_2227 : decode cL_law 2227 = .ok (.iconst 2, 1) := by decide +kernel
theorem dL_law_2228 : decode cL_law 2228 = .ok (.iadd, 1) := by decide +kernel
theorem dL_law_2229 : decode cL_law 2229 = .ok (.iaload, 1) := by decide +kernel
theorem dL_law_2230 : decode cL_law 2230 = .ok (.i2l, 1) := by decide +kernel
theorem dL_law_2231 : decode cL_law 2231 = .ok (.ldc2_w 252, 3) := by decide +kernel
theorem dL_law_2234 : decode cL_law 2234 = .ok (.land, 1) := by decide +kernel
theorem dL_law_2235 : decode cL_law 2235 = .ok (.lor, 1) := by decide +kernel
theorem dL_law_2236 : decode cL_law 2236 = .ok (.invokevirtual 257, 3) := by decide +kernel
theorem dL_law_2239 : decode cL_law 2239 = .ok (.istore 6, 2) := by decide +kernel
theorem dL_law_2241 : decode cL_law 2241 = .ok (.aload_n 2, 1) := by decide +kernel
theorem dL_law_2242 : decode cL_law 2242 = .ok (.invokevirtual 144, 3) := by decide +kernel
theorem dL_law_2245 : decode cL_law 2245 = .ok (.iload 5, 2) := by decide +kernel
theorem dL_law_2247 : decode cL_law 2247 = .ok (.if_icmp .eq 5, 3) := by decide +kernel
theorem dL_law_2250 : decode cL_law 2250 = .ok (.iconst 0, 1) := by decide +kernel
theorem dL_law_2251 : decode cL_law 2251 = .ok (.ireturn, 1) := by decide +kernel
theorem dL_law_2252 : decode cL_law 2252 = .ok (.iload 5, 2) := by decide +kernel
theorem dL_law_2254 : decode cL_law 2254 = .ok (.ifCond .ne 15, 3) := by decide +kernel
theorem dL_law_2257 : decode cL_law 2257 = .ok (.aload_n 3, 1) := by decide +kernel
theorem dL_law_2258 : decode cL_law 2258 = .ok (.iconst 0, 1) := by decide +kernel
theorem dL_law_2259 : decode cL_law 2259 = .ok (.laload, 1) := by decide +kernel
theorem dL_law_2260 : decode cL_law 2260 = .ok (.iload 6, 2) := by decide +kernel
theorem dL_law_2262 : decode cL_law 2262 = .ok (.i2l, 1) := by decide +kernel
theorem dL_law_2263 : decode cL_law 2263 = .ok (.lcmp, 1) := by decide +kernel
theorem dL_law_2264 : decode cL_law 2264 = .ok (.ifCond .eq 5, 3) := by decide +kernel
theorem dL_law_2267 : decode cL_law 2267 = .ok (.iconst 0, 1) := by decide +kernel
theorem dL_law_2268 : decode cL_law 2268 = .ok (.ireturn, 1) := by decide +kernel
theorem dL_law_2269 : decode cL_law 2269 = .ok (.goto 637, 3) := by decide +kernel
theorem dL_law_2272 : decode cL_law 2272 = .ok (.aload_n 1, 1) := by decide +kernel
theorem dL_law_2273 : decode cL_law 2273 = .ok (.invokevirtual 258, 3) := by decide +kernel
theorem dL_law_2276 : decode cL_law 2276 = .ok (.aload_n 2, 1) := by decide +kernel
theorem dL_law_2277 : decode cL_law 2277 = .ok (.invokevirtual 261, 3) := by decide +kernel
theorem dL_law_2280 : decode cL_law 2280 = .ok (.if_icmp .eq 626, 3) := by decide +kernel
theorem dL_law_2283 : decode cL_law 2283 = .ok (.iconst 0, 1) := by decide +kernel
theorem dL_law_2284 : decode cL_law 2284 = .ok (.ireturn, 1) := by decide +kernel
theorem dL_law_2285 : decode cL_law 2285 = .ok (.aload_n 1, 1) := by decide +kernel
theorem dL_law_2286 : decode cL_law 2286 = .ok (.invokevirtual 262, 3) := by decide +kernel
theorem dL_law_2289 : decode cL_law 2289 = .ok (.aload_n 2, 1) := by decide +kernel
theorem dL_law_2290 : decode cL_law 2290 = .ok (.invokevirtual 265, 3) := by decide +kernel
theorem dL_law_2293 : decode cL_law 2293 = .ok (.if_icmp .eq 613, 3) := by decide +kernel
theorem dL_law_2296 : decode cL_law 2296 = .ok (.iconst 0, 1) := by decide +kernel
theorem dL_law_2297 : decode cL_law 2297 = .ok (.ireturn, 1) := by decide +kernel
theorem dL_law_2298 : decode cL_law 2298 = .ok (.aload_n 1, 1) := by decide +kernel
theorem dL_law_2299 : decode cL_law 2299 = .ok (.aload_n 0, 1) := by decide +kernel
theorem dL_law_2300 : decode cL_law 2300 = .ok (.iload 4, 2) := by decide +kernel
theorem dL_law_2302 : decode cL_law 2302 = .ok (.iconst 1, 1) := by decide +kernel
theorem dL_law_2303 : decode cL_law 2303 = .ok (.iadd, 1) := by decide +kernel
theorem dL_law_2304 : decode cL_law 2304 = .ok (.iaload, 1) := by decide +kernel
theorem dL_law_2305 : decode cL_law 2305 = .ok (.aload_n 3, 1) := by decide +kernel
theorem dL_law_2306 : decode cL_law 2306 = .ok (.invokestatic 266, 3) := by decide +kernel
theorem dL_law_2309 : decode cL_law 2309 = .ok (.istore 5, 2) := by decide +kernel
theorem dL_law_2311 : decode cL_law 2311 = .ok (.aload_n 2, 1) := by decide +kernel
theorem dL_law_2312 : decode cL_law 2312 = .ok (.aload_n 0, 1) := by decide +kernel
theorem dL_law_2313 : decode cL_law 2313 = .ok (.iload 4, 2) := by decide +kernel
theorem dL_law_2315 : decode cL_law 2315 = .ok (.iconst 1, 1) := by decide +kernel
theorem dL_law_2316 : decode cL_law 2316 = .ok (.iadd, 1) := by decide +kernel
theorem dL_law_2317 : decode cL_law 2317 = .ok (.iaload, 1) := by decide +kernel
theorem dL_law_2318 : decode cL_law 2318 = .ok (.invokevirtual 268, 3) := by decide +kernel
theorem dL_law_2321 : decode cL_law 2321 = .ok (.istore 6, 2) := by decide +kernel
theorem dL_law_2323 : decode cL_law 2323 = .ok (.aload_n 2, 1) := by decide +kernel
theorem dL_law_2324 : decode cL_law 2324 = .ok (.invokevirtual 144, 3) := by decide +kernel
theorem dL_law_2327 : decode cL_law 2327 = .ok (.iload 5, 2) := by decide +kernel
theorem dL_law_2329 : decode cL_law 2329 = .ok (.if_icmp .eq 5, 3) := by decide +kernel
theorem dL_law_2332 : decode cL_law 2332 = .ok (.iconst 0, 1) := by decide +kernel
theorem dL_law_2333 : decode cL_law 2333 = .ok (.ireturn, 1) := by decide +kernel
theorem dL_law_2334 : decode cL_law 2334 = .ok (.iload 5, 2) := by decide +kernel
theorem dL_law_2336 : decode cL_law 2336 = .ok (.ifCond .ne 15, 3) := by decide +kernel
theorem dL_law_2339 : decode cL_law 2339 = .ok (.aload_n 3, 1) := by decide +kernel
theorem dL_law_2340 : decode cL_law 2340 = .ok (.iconst 0, 1) := by decide +kernel
theorem dL_law_2341 : decode cL_law 2341 = .ok (.laload, 1) := by decide +kernel
theorem dL_law_2342 : decode cL_law 2342 = .ok (.iload 6, 2) := by decide +kernel
theorem dL_law_2344 : decode cL_law 2344 = .ok (.i2l, 1) := by decide +kernel
theorem dL_law_2345 : decode cL_law 2345 = .ok (.lcmp, 1) := by decide +kernel
theorem dL_law_2346 : decode cL_law 2346 = .ok (.ifCond .eq 5, 3) := by decide +kernel
theorem dL_law_2349 : decode cL_law 2349 = .ok (.iconst 0, 1) := by decide +kernel
theorem dL_law_2350 : decode cL_law 2350 = .ok (.ireturn, 1) := by decide +kernel
theorem dL_law_2351 : decode cL_law 2351 = .ok (.goto 555, 3) := by decide +kernel
theorem dL_law_2354 : decode cL_law 2354 = .ok (.aload_n 1, 1) := by decide +kernel
theorem dL_law_2355 : decode cL_law 2355 = .ok (.invokevirtual 269, 3) := by decide +kernel
theorem dL_law_2358 : decode cL_law 2358 = .ok (.aload_n 2, 1) := by decide +kernel
theorem dL_law_2359 : decode cL_law 2359 = .ok (.invokevirtual 272, 3) := by decide +kernel
theorem dL_law_2362 : decode cL_law 2362 = .ok (.if_icmp .eq 544, 3) := by decide +kernel
theorem dL_law_2365 : decode cL_law 2365 = .ok (.iconst 0, 1) := by decide +kernel
theorem dL_law_2366 : decode cL_law 2366 = .ok (.ireturn, 1) := by decide +kernel
theorem dL_law_2367 : decode cL_law 2367 = .ok (.aload_n 1, 1) := by decide +kernel
theorem dL_law_2368 : decode cL_law 2368 = .ok (.invokevirtual 273, 3) := by decide +kernel
theorem dL_law_2371 : decode cL_law 2371 = .ok (.aload_n 2, 1) := by decide +kernel
theorem dL_law_2372 : decode cL_law 2372 = .ok (.invokevirtual 276, 3) := by decide +kernel
theorem dL_law_2375 : decode cL_law 2375 = .ok (.if_icmp .eq 531, 3) := by decide +kernel
theorem dL_law_2378 : decode cL_law 2378 = .ok (.iconst 0, 1) := by decide +kernel
theorem dL_law_2379 : decode cL_law 2379 = .ok (.ireturn, 1) := by decide +kernel
theorem dL_law_2380 : decode cL_law 2380 = .ok (.aload_n 1, 1) := by decide +kernel
theorem dL_law_2381 : decode cL_law 2381 = .ok (.aload_n 3, 1) := by decide +kernel
theorem dL_law_2382 : decode cL_law 2382 = .ok (.invokestatic 277, 3) := by decide +kernel
theorem dL_law_2385 : decode cL_law 2385 = .ok (.istore 5, 2) := by decide +kernel
theorem dL_law_2387 : decode cL_law 2387 = .ok (.aload_n 2, 1) := by decide +kernel
theorem dL_law_2388 : decode cL_law 2388 = .ok (.invokevirtual 280, 3) := by decide +kernel
theorem dL_law_2391 : decode cL_law 2391 = .ok (.istore 6, 2) := by decide +kernel
theorem dL_law_2393 : decode cL_law 2393 = .ok (.aload_n 2, 1) := by decide +kernel
theorem dL_law_2394 : decode cL_law 2394 = .ok (.invokevirtual 144, 3) := by decide +kernel
theorem dL_law_2397 : decode cL_law 2397 = .ok (.iload 5, 2) := by decide +kernel
theorem dL_law_2399 : decode cL_law 2399 = .ok (.if_icmp .eq 5, 3) := by decide +kernel
theorem dL_law_2402 : decode cL_law 2402 = .ok (.iconst 0, 1) := by decide +kernel
theorem dL_law_2403 : decode cL_law 2403 = .ok (.ireturn, 1) := by decide +kernel
theorem dL_law_2404 : decode cL_law 2404 = .ok (.iload 5, 2) := by decide +kernel
theorem dL_law_2406 : decode cL_law 2406 = .ok (.ifCond .ne 15, 3) := by decide +kernel
theorem dL_law_2409 : decode cL_law 2409 = .ok (.aload_n 3, 1) := by decide +kernel
theorem dL_law_2410 : decode cL_law 2410 = .ok (.iconst 0, 1) := by decide +kernel
theorem dL_law_2411 : decode cL_law 2411 = .ok (.laload, 1) := by decide +kernel
theorem dL_law_2412 : decode cL_law 2412 = .ok (.iload 6, 2) := by decide +kernel
theorem dL_law_2414 : decode cL_law 2414 = .ok (.i2l, 1) := by decide +kernel
theorem dL_law_2415 : decode cL_law 2415 = .ok (.lcmp, 1) := by decide +kernel
theorem dL_law_2416 : decode cL_law 2416 = .ok (.ifCond .eq 5, 3) := by decide +kernel
theorem dL_law_2419 : decode cL_law 2419 = .ok (.iconst 0, 1) := by decide +kernel
theorem dL_law_2420 : decode cL_law 2420 = .ok (.ireturn, 1) := by decide +kernel
theorem dL_law_2421 : decode cL_law 2421 = .ok (.goto 485, 3) := by decide +kernel
theorem dL_law_2424 : decode cL_law 2424 = .ok (.aload_n 1, 1) := by decide +kernel
theorem dL_law_2425 : decode cL_law 2425 = .ok (.aload_n 0, 1) := by decide +kernel
theorem dL_law_2426 : decode cL_law 2426 = .ok (.iload 4, 2) := by decide +kernel
theorem dL_law_2428 : decode cL_law 2428 = .ok (.iconst 1, 1) := by decide +kernel
theorem dL_law_2429 : decode cL_law 2429 = .ok (.iadd, 1) := by decide +kernel
theorem dL_law_2430 : decode cL_law 2430 = .ok (.iaload, 1) := by decide +kernel
theorem dL_law_2431 : decode cL_law 2431 = .ok (.aload_n 0, 1) := by decide +kernel
theorem dL_law_2432 : decode cL_law 2432 = .ok (.iload 4, 2) := by decide +kernel
theorem dL_law_2434 : decode cL_law 2434 = .ok (.iconst 2, 1) := by decide +kernel
theorem dL_law_2435 : decode cL_law 2435 = .ok (.iadd, 1) := by decide +kernel
theorem dL_law_2436 : decode cL_law 2436 = .ok (.iaload, 1) := by decide +kernel
theorem dL_law_2437 : decode cL_law 2437 = .ok (.aload_n 3, 1) := by decide +kernel
theorem dL_law_2438 : decode cL_law 2438 = .ok (.invokestatic 281, 3) := by decide +kernel
theorem dL_law_2441 : decode cL_law 2441 = .ok (.istore 5, 2) := by decide +kernel
theorem dL_law_2443 : decode cL_law 2443 = .ok (.aload_n 2, 1) := by decide +kernel
theorem dL_law_2444 : decode cL_law 2444 = .ok (.aload_n 0, 1) := by decide +kernel
theorem dL_law_2445 : decode cL_law 2445 = .ok (.iload 4, 2) := by decide +kernel
theorem dL_law_2447 : decode cL_law 2447 = .ok (.iconst 1, 1) := by decide +kernel
theorem dL_law_2448 : decode cL_law 2448 = .ok (.iadd, 1) := by decide +kernel
theorem dL_law_2449 : decode cL_law 2449 = .ok (.iaload, 1) := by decide +kernel
theorem dL_law_2450 : decode cL_law 2450 = .ok (.aload_n 0, 1) := by decide +kernel
theorem dL_law_2451 : decode cL_law 2451 = .ok (.iload 4, 2) := by decide +kernel
theorem dL_law_2453 : decode cL_law 2453 = .ok (.iconst 2, 1) := by decide +kernel
theorem dL_law_2454 : decode cL_law 2454 = .ok (.iadd, 1) := by decide +kernel
theorem dL_law_2455 : decode cL_law 2455 = .ok (.iaload, 1) := by decide +kernel
theorem dL_law_2456 : decode cL_law 2456 = .ok (.invokevirtual 283, 3) := by decide +kernel
theorem dL_law_2459 : decode cL_law 2459 = .ok (.istore 6, 2) := by decide +kernel
theorem dL_law_2461 : decode cL_law 2461 = .ok (.aload_n 2, 1) := by decide +kernel
theorem dL_law_2462 : decode cL_law 2462 = .ok (.invokevirtual 144, 3) := by decide +kernel
theorem dL_law_2465 : decode cL_law 2465 = .ok (.iload 5, 2) := by decide +kernel
theorem dL_law_2467 : decode cL_law 2467 = .ok (.if_icmp .eq 5, 3) := by decide +kernel
theorem dL_law_2470 : decode cL_law 2470 = .ok (.iconst 0, 1) := by decide +kernel
theorem dL_law_2471 : decode cL_law 2471 = .ok (.ireturn, 1) := by decide +kernel
theorem dL_law_2472 : decode cL_law 2472 = .ok (.iload 5, 2) := by decide +kernel
theorem dL_law_2474 : decode cL_law 2474 = .ok (.ifCond .ne 22, 3) := by decide +kernel
theorem dL_law_2477 : decode cL_law 2477 = .ok (.aload_n 3, 1) := by decide +kernel
theorem dL_law_2478 : decode cL_law 2478 = .ok (.iconst 0, 1) := by decide +kernel
theorem dL_law_2479 : decode cL_law 2479 = .ok (.laload, 1) := by decide +kernel
theorem dL_law_2480 : decode cL_law 2480 = .ok (.iload 6, 2) := by decide +kernel
theorem dL_law_2482 : decode cL_law 2482 = .ok (.ifCond .eq 7, 3) := by decide +kernel
theorem dL_law_2485 : decode cL_law 2485 = .ok (.lconst 1, 1) := by decide +kernel
theorem dL_law_2486 : decode cL_law 2486 = .ok (.goto 4, 3) := by decide +kernel
theorem dL_law_2489 : decode cL_law 2489 = .ok (.lconst 0, 1) := by decide +kernel
theorem dL_law_2490 : decode cL_law 2490 = .ok (.lcmp, 1) := by decide +kernel
theorem dL_law_2491 : decode cL_law 2491 = .ok (.ifCond .eq 5, 3) := by decide +kernel
theorem dL_law_2494 : decode cL_law 2494 = .ok (.iconst 0, 1) := by decide +kernel
theorem dL_law_2495 : decode cL_law 2495 = .ok (.ireturn, 1) := by decide +kernel
theorem dL_law_2496 : decode cL_law 2496 = .ok (.goto 410, 3) := by decide +kernel
theorem dL_law_2499 : decode cL_law 2499 = .ok (.aload_n 1, 1) := by decide +kernel
theorem dL_law_2500 : decode cL_law 2500 = .ok (.aload_n 0, 1) := by decide +kernel
theorem dL_law_2501 : decode cL_law 2501 = .ok (.iload 4, 2) := by decide +kernel
theorem dL_law_2503 : decode cL_law 2503 = .ok (.iconst 1, 1) := by decide +kernel
theorem dL_law_2504 : decode cL_law 2504 = .ok (.iadd, 1) := by decide +kernel
theorem dL_law_2505 : decode cL_law 2505 = .ok (.iaload, 1) := by decide +kernel
theorem dL_law_2506 : decode cL_law 2506 = .ok (.aload_n 0, 1) := by decide +kernel
theorem dL_law_2507 : decode cL_law 2507 = .ok (.iload 4, 2) := by decide +kernel
theorem dL_law_2509 : decode cL_law 2509 = .ok (.iconst 2, 1) := by decide +kernel
theorem dL_law_2510 : decode cL_law 2510 = .ok (.iadd, 1) := by decide +kernel
theorem dL_law_2511 : decode cL_law 2511 = .ok (.iaload, 1) := by decide +kernel
theorem dL_law_2512 : decode cL_law 2512 = .ok (.aload_n 0, 1) := by decide +kernel
theorem dL_law_2513 : decode cL_law 2513 = .ok (.iload 4, 2) := by decide +kernel
theorem dL_law_2515 : decode cL_law 2515 = .ok (.iconst 3, 1) := by decide +kernel
theorem dL_law_2516 : decode cL_law 2516 = .ok (.iadd, 1) := by decide +kernel
theorem dL_law_2517 : decode cL_law 2517 = .ok (.iaload, 1) := by decide +kernel
theorem dL_law_2518 : decode cL_law 2518 = .ok (.aload_n 3, 1) := by decide +kernel
theorem dL_law_2519 : decode cL_law 2519 = .ok (.invokestatic 284, 3) := by decide +kernel
theorem dL_law_2522 : decode cL_law 2522 = .ok (.istore 5, 2) := by decide +kernel
theorem dL_law_2524 : decode cL_law 2524 = .ok (.aload_n 2, 1) := by decide +kernel
theorem dL_law_2525 : decode cL_law 2525 = .ok (.aload_n 0, 1) := by decide +kernel
theorem dL_law_2526 : decode cL_law 2526 = .ok (.iload 4, 2) := by decide +kernel
theorem dL_law_2528 : decode cL_law 2528 = .ok (.iconst 1, 1) := by decide +kernel
theorem dL_law_2529 : decode cL_law 2529 = .ok (.iadd, 1) := by decide +kernel
theorem dL_law_2530 : decode cL_law 2530 = .ok (.iaload, 1) := by decide +kernel
theorem dL_law_2531 : decode cL_law 2531 = .ok (.aload_n 0, 1) := by decide +kernel
theorem dL_law_2532 : decode cL_law 2532 = .ok (.iload 4, 2) := by decide +kernel
theorem dL_law_2534 : decode cL_law 2534 = .ok (.iconst 2, 1) := by decide +kernel
theorem dL_law_2535 : decode cL_law 2535 = .ok (.iadd, 1) := by decide +kernel
theorem dL_law_2536 : decode cL_law 2536 = .ok (.iaload, 1) := by decide +kernel
theorem dL_law_2537 : decode cL_law 2537 = .ok (.aload_n 0, 1) := by decide +kernel
theorem dL_law_2538 : decode cL_law 2538 = .ok (.iload 4, 2) := by decide +kernel
theorem dL_law_2540 : decode cL_law 2540 = .ok (.iconst 3, 1) := by decide +kernel
theorem dL_law_2541 : decode cL_law 2541 = .ok (.iadd, 1) := by decide +kernel
theorem dL_law_2542 : decode cL_law 2542 = .ok (.iaload, 1) := by decide +kernel
theorem dL_law_2543 : decode cL_law 2543 = .ok (.invokevirtual 286, 3) := by decide +kernel
theorem dL_law_2546 : decode cL_law 2546 = .ok (.istore 6, 2) := by decide +kernel
theorem dL_law_2548 : decode cL_law 2548 = .ok (.aload_n 2, 1) := by decide +kernel
theorem dL_law_2549 : decode cL_law 2549 = .ok (.invokevirtual 144, 3) := by decide +kernel
theorem dL_law_2552 : decode cL_law 2552 = .ok (.iload 5, 2) := by decide +kernel
theorem dL_law_2554 : decode cL_law 2554 = .ok (.if_icmp .eq 5, 3) := by decide +kernel
theorem dL_law_2557 : decode cL_law 2557 = .ok (.iconst 0, 1) := by decide +kernel
theorem dL_law_2558 : decode cL_law 2558 = .ok (.ireturn, 1) := by decide +kernel
theorem dL_law_2559 : decode cL_law 2559 = .ok (.iload 5, 2) := by decide +kernel
theorem dL_law_2561 : decode cL_law 2561 = .ok (.ifCond .ne 22, 3) := by decide +kernel
theorem dL_law_2564 : decode cL_law 2564 = .ok (.aload_n 3, 1) := by decide +kernel
theorem dL_law_2565 : decode cL_law 2565 = .ok (.iconst 0, 1) := by decide +kernel
theorem dL_law_2566 : decode cL_law 2566 = .ok (.laload, 1) := by decide +kernel
theorem dL_law_2567 : decode cL_law 2567 = .ok (.iload 6, 2) := by decide +kernel
theorem dL_law_2569 : decode cL_law 2569 = .ok (.ifCond .eq 7, 3) := by decide +kernel
theorem dL_law_2572 : decode cL_law 2572 = .ok (.lconst 1, 1) := by decide +kernel
theorem dL_law_2573 : decode cL_law 2573 = .ok (.goto 4, 3) := by decide +kernel
theorem dL_law_2576 : decode cL_law 2576 = .ok (.lconst 0, 1) := by decide +kernel
theorem dL_law_2577 : decode cL_law 2577 = .ok (.lcmp, 1) := by decide +kernel
theorem dL_law_2578 : decode cL_law 2578 = .ok (.ifCond .eq 5, 3) := by decide +kernel
theorem dL_law_2581 : decode cL_law 2581 = .ok (.iconst 0, 1) := by decide +kernel
theorem dL_law_2582 : decode cL_law 2582 = .ok (.ireturn, 1) := by decide +kernel
theorem dL_law_2583 : decode cL_law 2583 = .ok (.goto 323, 3) := by decide +kernel
theorem dL_law_2586 : decode cL_law 2586 = .ok (.aload_n 1, 1) := by decide +kernel
theorem dL_law_2587 : decode cL_law 2587 = .ok (.aload_n 0, 1) := by decide +kernel
theorem dL_law_2588 : decode cL_law 2588 = .ok (.iload 4, 2) := by decide +kernel
theorem dL_law_2590 : decode cL_law 2590 = .ok (.iconst 1, 1) := by decide +kernel
theorem dL_law_2591 : decode cL_law 2591 = .ok (.iadd, 1) := by decide +kernel
theorem dL_law_2592 : decode cL_law 2592 = .ok (.iaload, 1) := by decide +kernel
theorem dL_law_2593 : decode cL_law 2593 = .ok (.aload_n 0, 1) := by decide +kernel
theorem dL_law_2594 : decode cL_law 2594 = .ok (.iload 4, 2) := by decide +kernel
theorem dL_law_2596 : decode cL_law 2596 = .ok (.iconst 2, 1) := by decide +kernel
theorem dL_law_2597 : decode cL_law 2597 = .ok (.iadd, 1) := by decide +kernel
theorem dL_law_2598 : decode cL_law 2598 = .ok (.iaload, 1) := by decide +kernel
theorem dL_law_2599 : decode cL_law 2599 = .ok (.aload_n 3, 1) := by decide +kernel
theorem dL_law_2600 : decode cL_law 2600 = .ok (.invokestatic 287, 3) := by decide +kernel
theorem dL_law_2603 : decode cL_law 2603 = .ok (.istore 5, 2) := by decide +kernel
theorem dL_law_2605 : decode cL_law 2605 = .ok (.aload_n 2, 1) := by decide +kernel
theorem dL_law_2606 : decode cL_law 2606 = .ok (.aload_n 0, 1) := by decide +kernel
theorem dL_law_2607 : decode cL_law 2607 = .ok (.iload 4, 2) := by decide +kernel
theorem dL_law_2609 : decode cL_law 2609 = .ok (.iconst 1, 1) := by decide +kernel
theorem dL_law_2610 : decode cL_law 2610 = .ok (.iadd, 1) := by decide +kernel
theorem dL_law_2611 : decode cL_law 2611 = .ok (.iaload, 1) := by decide +kernel
theorem dL_law_2612 : decode cL_law 2612 = .ok (.aload_n 0, 1) := by decide +kernel
theorem dL_law_2613 : decode cL_law 2613 = .ok (.iload 4, 2) := by decide +kernel
theorem dL_law_2615 : decode cL_law 2615 = .ok (.iconst 2, 1) := by decide +kernel
theorem dL_law_2616 : decode cL_law 2616 = .ok (.iadd, 1) := by decide +kernel
theorem dL_law_2617 : decode cL_law 2617 = .ok (.iaload, 1) := by decide +kernel
theorem dL_law_2618 : decode cL_law 2618 = .ok (.invokevirtual 289, 3) := by decide +kernel
theorem dL_law_2621 : decode cL_law 2621 = .ok (.istore 6, 2) := by decide +kernel
theorem dL_law_2623 : decode cL_law 2623 = .ok (.aload_n 2, 1) := by decide +kernel
theorem dL_law_2624 : decode cL_law 2624 = .ok (.invokevirtual 144, 3) := by decide +kernel
theorem dL_law_2627 : decode cL_law 2627 = .ok (.iload 5, 2) := by decide +kernel
theorem dL_law_2629 : decode cL_law 2629 = .ok (.if_icmp .eq 5, 3) := by decide +kernel
theorem dL_law_2632 : decode cL_law 2632 = .ok (.iconst 0, 1) := by decide +kernel
theorem dL_law_2633 : decode cL_law 2633 = .ok (.ireturn, 1) := by decide +kernel
theorem dL_law_2634 : decode cL_law 2634 = .ok (.iload 5, 2) := by decide +kernel
theorem dL_law_2636 : decode cL_law 2636 = .ok (.ifCond .ne 15, 3) := by decide +kernel
theorem dL_law_2639 : decode cL_law 2639 = .ok (.aload_n 3, 1) := by decide +kernel
theorem dL_law_2640 : decode cL_law 2640 = .ok (.iconst 0, 1) := by decide +kernel
theorem dL_law_2641 : decode cL_law 2641 = .ok (.laload, 1) := by decide +kernel
theorem dL_law_2642 : decode cL_law 2642 = .ok (.iload 6, 2) := by decide +kernel
theorem dL_law_2644 : decode cL_law 2644 = .ok (.i2l, 1) := by decide +kernel
theorem dL_law_2645 : decode cL_law 2645 = .ok (.lcmp, 1) := by decide +kernel
theorem dL_law_2646 : decode cL_law 2646 = .ok (.ifCond .eq 5, 3) := by decide +kernel
theorem dL_law_2649 : decode cL_law 2649 = .ok (.iconst 0, 1) := by decide +kernel
theorem dL_law_2650 : decode cL_law 2650 = .ok (.ireturn, 1) := by decide +kernel
theorem dL_law_2651 : decode cL_law 2651 = .ok (.goto 255, 3) := by decide +kernel
theorem dL_law_2654 : decode cL_law 2654 = .ok (.aload_n 1, 1) := by decide +kernel
theorem dL_law_2655 : decode cL_law 2655 = .ok (.aload_n 0, 1) := by decide +kernel
theorem dL_law_2656 : decode cL_law 2656 = .ok (.iload 4, 2) := by decide +kernel
theorem dL_law_2658 : decode cL_law 2658 = .ok (.iconst 1, 1) := by decide +kernel
theorem dL_law_2659 : decode cL_law 2659 = .ok (.iadd, 1) := by decide +kernel
theorem dL_law_2660 : decode cL_law 2660 = .ok (.iaload, 1) := by decide +kernel
theorem dL_law_2661 : decode cL_law 2661 = .ok (.aload_n 0, 1) := by decide +kernel
theorem dL_law_2662 : decode cL_law 2662 = .ok (.iload 4, 2) := by decide +kernel
theorem dL_law_2664 : decode cL_law 2664 = .ok (.iconst 2, 1) := by decide +kernel
theorem dL_law_2665 : decode cL_law 2665 = .ok (.iadd, 1) := by decide +kernel
theorem dL_law_2666 : decode cL_law 2666 = .ok (.iaload, 1) := by decide +kernel
theorem dL_law_2667 : decode cL_law 2667 = .ok (.aload_n 3, 1) := by decide +kernel
theorem dL_law_2668 : decode cL_law 2668 = .ok (.invokestatic 290, 3) := by decide +kernel
theorem dL_law_2671 : decode cL_law 2671 = .ok (.istore 5, 2) := by decide +kernel
theorem dL_law_2673 : decode cL_law 2673 = .ok (.aload_n 2, 1) := by decide +kernel
theorem dL_law_2674 : decode cL_law 2674 = .ok (.aload_n 0, 1) := by decide +kernel
theorem dL_law_2675 : decode cL_law 2675 = .ok (.iload 4, 2) := by decide +kernel
theorem dL_law_2677 : decode cL_law 2677 = .ok (.iconst 1, 1) := by decide +kernel
theorem dL_law_2678 : decode cL_law 2678 = .ok (.iadd, 1) := by decide +kernel
theorem dL_law_2679 : decode cL_law 2679 = .ok (.iaload, 1) := by decide +kernel
theorem dL_law_2680 : decode cL_law 2680 = .ok (.aload_n 0, 1) := by decide +kernel
theorem dL_law_2681 : decode cL_law 2681 = .ok (.iload 4, 2) := by decide +kernel
theorem dL_law_2683 : decode cL_law 2683 = .ok (.iconst 2, 1) := by decide +kernel
theorem dL_law_2684 : decode cL_law 2684 = .ok (.iadd, 1) := by decide +kernel
theorem dL_law_2685 : decode cL_law 2685 = .ok (.iaload, 1) := by decide +kernel
theorem dL_law_2686 : decode cL_law 2686 = .ok (.invokevirtual 292, 3) := by decide +kernel
theorem dL_law_2689 : decode cL_law 2689 = .ok (.istore 6, 2) := by decide +kernel
theorem dL_law_2691 : decode cL_law 2691 = .ok (.aload_n 2, 1) := by decide +kernel
theorem dL_law_2692 : decode cL_law 2692 = .ok (.invokevirtual 144, 3) := by decide +kernel
theorem dL_law_2695 : decode cL_law 2695 = .ok (.iload 5, 2) := by decide +kernel
theorem dL_law_2697 : decode cL_law 2697 = .ok (.if_icmp .eq 5, 3) := by decide +kernel
theorem dL_law_2700 : decode cL_law 2700 = .ok (.iconst 0, 1) := by decide +kernel
theorem dL_law_2701 : decode cL_law 2701 = .ok (.ireturn, 1) := by decide +kernel
theorem dL_law_2702 : decode cL_law 2702 = .ok (.iload 5, 2) := by decide +kernel
theorem dL_law_2704 : decode cL_law 2704 = .ok (.ifCond .ne 22, 3) := by decide +kernel
theorem dL_law_2707 : decode cL_law 2707 = .ok (.aload_n 3, 1) := by decide +kernel
theorem dL_law_2708 : decode cL_law 2708 = .ok (.iconst 0, 1) := by decide +kernel
theorem dL_law_2709 : decode cL_law 2709 = .ok (.laload, 1) := by decide +kernel
theorem dL_law_2710 : decode cL_law 2710 = .ok (.iload 6, 2) := by decide +kernel
theorem dL_law_2712 : decode cL_law 2712 = .ok (.ifCond .eq 7, 3) := by decide +kernel
theorem dL_law_2715 : decode cL_law 2715 = .ok (.lconst 1, 1) := by decide +kernel
theorem dL_law_2716 : decode cL_law 2716 = .ok (.goto 4, 3) := by decide +kernel
theorem dL_law_2719 : decode cL_law 2719 = .ok (.lconst 0, 1) := by decide +kernel
theorem dL_law_2720 : decode cL_law 2720 = .ok (.lcmp, 1) := by decide +kernel
theorem dL_law_2721 : decode cL_law 2721 = .ok (.ifCond .eq 5, 3) := by decide +kernel
theorem dL_law_2724 : decode cL_law 2724 = .ok (.iconst 0, 1) := by decide +kernel
theorem dL_law_2725 : decode cL_law 2725 = .ok (.ireturn, 1) := by decide +kernel
theorem dL_law_2726 : decode cL_law 2726 = .ok (.goto 180, 3) := by decide +kernel
theorem dL_law_2729 : decode cL_law 2729 = .ok (.aload_n 1, 1) := by decide +kernel
theorem dL_law_2730 : decode cL_law 2730 = .ok (.aload_n 0, 1) := by decide +kernel
theorem dL_law_2731 : decode cL_law 2731 = .ok (.iload 4, 2) := by decide +kernel
theorem dL_law_2733 : decode cL_law 2733 = .ok (.iconst 1, 1) := by decide +kernel
theorem dL_law_2734 : decode cL_law 2734 = .ok (.iadd, 1) := by decide +kernel
theorem dL_law_2735 : decode cL_law 2735 = .ok (.iaload, 1) := by decide +kernel
theorem dL_law_2736 : decode cL_law 2736 = .ok (.aload_n 0, 1) := by decide +kernel
theorem dL_law_2737 : decode cL_law 2737 = .ok (.iload 4, 2) := by decide +kernel
theorem dL_law_2739 : decode cL_law 2739 = .ok (.iconst 2, 1) := by decide +kernel
theorem dL_law_2740 : decode cL_law 2740 = .ok (.iadd, 1) := by decide +kernel
theorem dL_law_2741 : decode cL_law 2741 = .ok (.iaload, 1) := by decide +kernel
theorem dL_law_2742 : decode cL_law 2742 = .ok (.aload_n 0, 1) := by decide +kernel
theorem dL_law_2743 : decode cL_law 2743 = .ok (.iload 4, 2) := by decide +kernel
theorem dL_law_2745 : decode cL_law 2745 = .ok (.iconst 3, 1) := by decide +kernel
theorem dL_law_2746 : decode cL_law 2746 = .ok (.iadd, 1) := by decide +kernel
theorem dL_law_2747 : decode cL_law 2747 = .ok (.iaload, 1) := by decide +kernel
theorem dL_law_2748 : decode cL_law 2748 = .ok (.aload_n 3, 1) := by decide +kernel
theorem dL_law_2749 : decode cL_law 2749 = .ok (.invokestatic 293, 3) := by decide +kernel
theorem dL_law_2752 : decode cL_law 2752 = .ok (.istore 5, 2) := by decide +kernel
theorem dL_law_2754 : decode cL_law 2754 = .ok (.aload_n 2, 1) := by decide +kernel
theorem dL_law_2755 : decode cL_law 2755 = .ok (.aload_n 0, 1) := by decide +kernel
theorem dL_law_2756 : decode cL_law 2756 = .ok (.iload 4, 2) := by decide +kernel
theorem dL_law_2758 : decode cL_law 2758 = .ok (.iconst 1, 1) := by decide +kernel
theorem dL_law_2759 : decode cL_law 2759 = .ok (.iadd, 1) := by decide +kernel
theorem dL_law_2760 : decode cL_law 2760 = .ok (.iaload, 1) := by decide +kernel
theorem dL_law_2761 : decode cL_law 2761 = .ok (.aload_n 0, 1) := by decide +kernel
theorem dL_law_2762 : decode cL_law 2762 = .ok (.iload 4, 2) := by decide +kernel
theorem dL_law_2764 : decode cL_law 2764 = .ok (.iconst 2, 1) := by decide +kernel
theorem dL_law_2765 : decode cL_law 2765 = .ok (.iadd, 1) := by decide +kernel
theorem dL_law_2766 : decode cL_law 2766 = .ok (.iaload, 1) := by decide +kernel
theorem dL_law_2767 : decode cL_law 2767 = .ok (.aload_n 0, 1) := by decide +kernel
theorem dL_law_2768 : decode cL_law 2768 = .ok (.iload 4, 2) := by decide +kernel
theorem dL_law_2770 : decode cL_law 2770 = .ok (.iconst 3, 1) := by decide +kernel
theorem dL_law_2771 : decode cL_law 2771 = .ok (.iadd, 1) := by decide +kernel
theorem dL_law_2772 : decode cL_law 2772 = .ok (.iaload, 1) := by decide +kernel
theorem dL_law_2773 : decode cL_law 2773 = .ok (.invokevirtual 295, 3) := by decide +kernel
theorem dL_law_2776 : decode cL_law 2776 = .ok (.istore 6, 2) := by decide +kernel
theorem dL_law_2778 : decode cL_law 2778 = .ok (.aload_n 2, 1) := by decide +kernel
theorem dL_law_2779 : decode cL_law 2779 = .ok (.invokevirtual 144, 3) := by decide +kernel
theorem dL_law_2782 : decode cL_law 2782 = .ok (.iload 5, 2) := by decide +kernel
theorem dL_law_2784 : decode cL_law 2784 = .ok (.if_icmp .eq 5, 3) := by decide +kernel
theorem dL_law_2787 : decode cL_law 2787 = .ok (.iconst 0, 1) := by decide +kernel
theorem dL_law_2788 : decode cL_law 2788 = .ok (.ireturn, 1) := by decide +kernel
theorem dL_law_2789 : decode cL_law 2789 = .ok (.iload 5, 2) := by decide +kernel
theorem dL_law_2791 : decode cL_law 2791 = .ok (.ifCond .ne 15, 3) := by decide +kernel
theorem dL_law_2794 : decode cL_law 2794 = .ok (.aload_n 3, 1) := by decide +kernel
theorem dL_law_2795 : decode cL_law 2795 = .ok (.iconst 0, 1) := by decide +kernel
theorem dL_law_2796 : decode cL_law 2796 = .ok (.laload, 1) := by decide +kernel
theorem dL_law_2797 : decode cL_law 2797 = .ok (.iload 6, 2) := by decide +kernel
theorem dL_law_2799 : decode cL_law 2799 = .ok (.i2l, 1) := by decide +kernel
theorem dL_law_2800 : decode cL_law 2800 = .ok (.lcmp, 1) := by decide +kernel
theorem dL_law_2801 : decode cL_law 2801 = .ok (.ifCond .eq 5, 3) := by decide +kernel
theorem dL_law_2804 : decode cL_law 2804 = .ok (.iconst 0, 1) := by decide +kernel
theorem dL_law_2805 : decode cL_law 2805 = .ok (.ireturn, 1) := by decide +kernel
theorem dL_law_2806 : decode cL_law 2806 = .ok (.goto 100, 3) := by decide +kernel
theorem dL_law_2809 : decode cL_law 2809 = .ok (.aload_n 1, 1) := by decide +kernel
theorem dL_law_2810 : decode cL_law 2810 = .ok (.invokevirtual 296, 3) := by decide +kernel
theorem dL_law_2813 : decode cL_law 2813 = .ok (.aload_n 2, 1) := by decide +kernel
theorem dL_law_2814 : decode cL_law 2814 = .ok (.invokevirtual 299, 3) := by decide +kernel
theorem dL_law_2817 : decode cL_law 2817 = .ok (.if_icmp .eq 89, 3) := by decide +kernel
theorem dL_law_2820 : decode cL_law 2820 = .ok (.iconst 0, 1) := by decide +kernel
theorem dL_law_2821 : decode cL_law 2821 = .ok (.ireturn, 1) := by decide +kernel
theorem dL_law_2822 : decode cL_law 2822 = .ok (.aload_n 1, 1) := by decide +kernel
theorem dL_law_2823 : decode cL_law 2823 = .ok (.invokevirtual 300, 3) := by decide +kernel
theorem dL_law_2826 : decode cL_law 2826 = .ok (.dstore 5, 2) := by decide +kernel
theorem dL_law_2828 : decode cL_law 2828 = .ok (.aload_n 2, 1) := by decide +kernel
theorem dL_law_2829 : decode cL_law 2829 = .ok (.invokevirtual 304, 3) := by decide +kernel
theorem dL_law_2832 : decode cL_law 2832 = .ok (.dstore 7, 2) := by decide +kernel
theorem dL_law_2834 : decode cL_law 2834 = .ok (.dload 5, 2) := by decide +kernel
theorem dL_law_2836 : decode cL_law 2836 = .ok (.dload 7, 2) := by decide +kernel
theorem dL_law_2838 : decode cL_law 2838 = .ok (.dcmp .l, 1) := by decide +kernel
theorem dL_law_2839 : decode cL_law 2839 = .ok (.ifCond .eq 21, 3) := by decide +kernel
theorem dL_law_2842 : decode cL_law 2842 = .ok (.dload 5, 2) := by decide +kernel
theorem dL_law_2844 : decode cL_law 2844 = .ok (.dload 5, 2) := by decide +kernel
theorem dL_law_2846 : decode cL_law 2846 = .ok (.dcmp .l, 1) := by decide +kernel
theorem dL_law_2847 : decode cL_law 2847 = .ok (.ifCond .eq 11, 3) := by decide +kernel
theorem dL_law_2850 : decode cL_law 2850 = .ok (.dload 7, 2) := by decide +kernel
theorem dL_law_2852 : decode cL_law 2852 = .ok (.dload 7, 2) := by decide +kernel
theorem dL_law_2854 : decode cL_law 2854 = .ok (.dcmp .l, 1) := by decide +kernel
theorem dL_law_2855 : decode cL_law 2855 = .ok (.ifCond .ne 5, 3) := by decide +kernel
theorem dL_law_2858 : decode cL_law 2858 = .ok (.iconst 0, 1) := by decide +kernel
theorem dL_law_2859 : decode cL_law 2859 = .ok (.ireturn, 1) := by decide +kernel
theorem dL_law_2860 : decode cL_law 2860 = .ok (.goto 46, 3) := by decide +kernel
theorem dL_law_2863 : decode cL_law 2863 = .ok (.aload_n 1, 1) := by decide +kernel
theorem dL_law_2864 : decode cL_law 2864 = .ok (.invokevirtual 305, 3) := by decide +kernel
theorem dL_law_2867 : decode cL_law 2867 = .ok (.f2d, 1) := by decide +kernel
theorem dL_law_2868 : decode cL_law 2868 = .ok (.dstore 5, 2) := by decide +kernel
theorem dL_law_2870 : decode cL_law 2870 = .ok (.aload_n 2, 1) := by decide +kernel
theorem dL_law_2871 : decode cL_law 2871 = .ok (.invokevirtual 309, 3) := by decide +kernel
theorem dL_law_2874 : decode cL_law 2874 = .ok (.f2d, 1) := by decide +kernel
theorem dL_law_2875 : decode cL_law 2875 = .ok (.dstore 7, 2) := by decide +kernel
theorem dL_law_2877 : decode cL_law 2877 = .ok (.dload 5, 2) := by decide +kernel
theorem dL_law_2879 : decode cL_law 2879 = .ok (.dload 7, 2) := by decide +kernel
theorem dL_law_2881 : decode cL_law 2881 = .ok (.dcmp .l, 1) := by decide +kernel
theorem dL_law_2882 : decode cL_law 2882 = .ok (.ifCond .eq 21, 3) := by decide +kernel
theorem dL_law_2885 : decode cL_law 2885 = .ok (.dload 5, 2) := by decide +kernel
theorem dL_law_2887 : decode cL_law 2887 = .ok (.dload 5, 2) := by decide +kernel
theorem dL_law_2889 : decode cL_law 2889 = .ok (.dcmp .l, 1) := by decide +kernel
theorem dL_law_2890 : decode cL_law 2890 = .ok (.ifCond .eq 11, 3) := by decide +kernel
theorem dL_law_2893 : decode cL_law 2893 = .ok (.dload 7, 2) := by decide +kernel
theorem dL_law_2895 : decode cL_law 2895 = .ok (.dload 7, 2) := by decide +kernel
theorem dL_law_2897 : decode cL_law 2897 = .ok (.dcmp .l, 1) := by decide +kernel
theorem dL_law_2898 : decode cL_law 2898 = .ok (.ifCond .ne 5, 3) := by decide +kernel
theorem dL_law_2901 : decode cL_law 2901 = .ok (.iconst 0, 1) := by decide +kernel
theorem dL_law_2902 : decode cL_law 2902 = .ok (.ireturn, 1) := by decide +kernel
theorem dL_law_2903 : decode cL_law 2903 = .ok (.goto 3, 3) := by decide +kernel
theorem dL_law_2906 : decode cL_law 2906 = .ok (.iinc 4 5, 3) := by decide +kernel
theorem dL_law_2909 : decode cL_law 2909 = .ok (.goto (-2886), 3) := by decide +kernel
theorem dL_law_2912 : decode cL_law 2912 = .ok (.iconst 1, 1) := by decide +kernel
theorem dL_law_2913 : decode cL_law 2913 = .ok (.ireturn, 1) := by decide +kernel
