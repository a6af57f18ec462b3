set_option maxRecDepth 20000 in
theorem ggL_law_X7_init : GoodIn wsL_law wsX7_init := goodIn_r _ [10, 11, 12, 13, 14, 15, 16, 17, 18, 19, 20, 21, 22, 23, 24, 25, 26, 27, 28, 29, 30, 31, 32, 33, 34, 35, 36, 37, 38, 39, 40, 41, 42, 43, 44, 45, 46, 47, 48, 49, 50, 51, 52, 53, 54, 55, 56, 57, 58, 59, 60, 61, 62, 63, 64, 65, 66, 67, 68, 69, 70, 71, 72, 73, 74, 75, 76, 77, 78, 79, 80, 81, 82, 83, 84, 85, 86, 87, 88, 89, 90, 91, 1306, 1307, 1308, 1309, 1310, 1311, 1312, 1313, 1333, 1334, 1335, 1336, 1337, 1338, 1339, 1340, 1341, 1342, 1343, 1344, 1345, 1346, 1347, 1348, 1349, 1350, 1351, 1352, 1353, 1354, 1355, 1356, 1357, 1358] (by decide +kernel) (by decide +kernel)
set_option maxRecDepth 20000 in
theorem gL_law_X7_init : GoodIn wsL_law (wsX7_init) := ggL_law_X7_init
set_option maxRecDepth 20000 in
theorem ggL_law_X8_init : GoodIn wsL_law wsX8_init := goodIn_r _ [94, 95, 12, 13, 96, 79, 97, 98, 99, 100, 101, 77, 102, 103, 104, 105, 106, 107, 1314, 1315, 1316, 1317, 1318, 1319, 1320, 1321, 1322, 1323, 1324, 1325, 1326, 1327, 1328, 1329, 1330, 1331, 1332] (by decide +kernel) (by decide +kernel)
set_option maxRecDepth 20000 in
theorem gL_law_X8_init : GoodIn wsL_law (wsX8_init) := ggL_law_X8_init
set_option maxRecDepth 20000 in
theorem ggL_law_L_add : GoodIn wsL_law wsL_add := goodIn_ca (goodIn_ca (goodIn_r _ [111, 112, 113, 114, 115, 2, 116, 117, 118, 119, 120, 121, 122, 15, 123, 124, 125, 126, 127, 128, 129, 130, 131, 132, 133, 19, 134, 135, 136, 137, 138, 44, 45, 139, 140, 141, 142, 1306, 1307, 1308, 1309, 1310, 1311, 1312, 1313, 1333, 1334] (by decide +kernel) (by decide +kernel)) (goodIn_sub (fun _ h => List.mem_append_left _ (List.mem_append_left _ (List.mem_append_left _ (List.mem_append_left _ (List.mem_append_left _ (List.mem_append_left _ (List.mem_append_left _ (List.mem_append_left _ (List.mem_append_right _ h))))))))) (by decide +kernel))) (goodIn_sub (fun _ h => List.mem_append_left _ (List.mem_append_left _ (List.mem_append_left _ (List.mem_append_left _ (List.mem_append_left _ (List.mem_append_left _ (List.mem_append_left _ (List.mem_append_right _ h)))))))) (by decide +kernel))
set_option maxRecDepth 20000 in
theorem gL_law_L_add : GoodIn wsL_law (va_wsS RL 138 yL_add wsL_add) := goodIn_app (goodIn_of _ (by decide +kernel)) ggL_law_L_add
set_option maxRecDepth 20000 in
theorem ggL_law_X8_add : GoodIn wsL_law wsX8_add := goodIn_r _ [146, 147, 148, 5, 149, 150, 151, 152, 153, 154, 155, 156, 157, 158, 159, 160, 161, 162, 163, 164, 97, 165, 166, 167, 1314, 1315, 1316, 1317, 1318, 1319, 1320, 1321, 1322, 1323, 1324, 1325, 1326, 1327, 1328, 1329, 1330, 1331, 1332] (by decide +kernel) (by decide +kernel)
set_option maxRecDepth 20000 in
theorem gL_law_X8_add : GoodIn wsL_law (wsV RL 143 RX8 yX8_add wsX8_add) := goodIn_app (goodIn_of _ (by decide +kernel)) ggL_law_X8_add
set_option maxRecDepth 20000 in
theorem ggL_law_X8_thrown : GoodIn wsL_law wsX8_thrown := goodIn_r _ [171, 160, 1314, 1315, 1316, 1317, 1318, 1319, 1320, 1321, 1322, 1323, 1324, 1325, 1326, 1327, 1328, 1329, 1330, 1331, 1332] (by decide +kernel) (by decide +kernel)
set_option maxRecDepth 20000 in
theorem gL_law_X8_thrown : GoodIn wsL_law (wsV RL 144 RX8 yX8_thrown wsX8_thrown) := goodIn_app (goodIn_of _ (by decide +kernel)) ggL_law_X8_thrown
set_option maxRecDepth 20000 in
theorem ggL_law_L_remove : GoodIn wsL_law wsL_remove := goodIn_ca (goodIn_ca (goodIn_r _ [174, 112, 175, 176, 177, 2, 178, 117, 118, 119, 120, 121, 122, 15, 123, 124, 125, 126, 127, 128, 129, 130, 179, 180, 181, 19, 182, 135, 136, 137, 138, 44, 45, 139, 140, 141, 142, 1306, 1307, 1308, 1309, 1310, 1311, 1312, 1313, 1333, 1334] (by decide +kernel) (by decide +kernel)) (goodIn_sub (fun _ h => List.mem_append_left _ (List.mem_append_left _ (List.mem_append_left _ (List.mem_append_left _ (List.mem_append_left _ (List.mem_append_left _ (List.mem_append_left _ (List.mem_append_left _ (List.mem_append_right _ h))))))))) (by decide +kernel))) (goodIn_sub (fun _ h => List.mem_append_left _ (List.mem_append_left _ (List.mem_append_left _ (List.mem_append_left _ (List.mem_append_left _ (List.mem_append_left _ (List.mem_append_left _ (List.mem_append_right _ h)))))))) (by decide +kernel))
set_option maxRecDepth 20000 in
theorem gL_law_L_remove : GoodIn wsL_law (va_wsS RL 147 yL_remove wsL_remove) := goodIn_app (goodIn_of _ (by decide +kernel)) ggL_law_L_remove
set_option maxRecDepth 20000 in
theorem ggL_law_X8_remove : GoodIn wsL_law wsX8_remove := goodIn_r _ [186, 147, 148, 5, 149, 150, 151, 152, 153, 154, 155, 156, 157, 158, 159, 160, 161, 162, 163, 164, 97, 165, 166, 167, 1314, 1315, 1316, 1317, 1318, 1319, 1320, 1321, 1322, 1323, 1324, 1325, 1326, 1327, 1328, 1329, 1330, 1331, 1332] (by decide +kernel) (by decide +kernel)
set_option maxRecDepth 20000 in
theorem gL_law_X8_remove : GoodIn wsL_law (wsV RL 149 RX8 yX8_remove wsX8_remove) := goodIn_app (goodIn_of _ (by decide +kernel)) ggL_law_X8_remove
set_option maxRecDepth 20000 in
theorem ggL_law_L_has : GoodIn wsL_law wsL_has := goodIn_ca (goodIn_ca (goodIn_r _ [189, 112, 190, 191, 192, 2, 193, 117, 118, 119, 120, 121, 122, 15, 123, 124, 125, 126, 127, 128, 129, 130, 194, 136, 137, 19, 138, 44, 45, 1306, 1307, 1308, 1309, 1310, 1311, 1312, 1313, 1333, 1334] (by decide +kernel) (by decide +kernel)) (goodIn_sub (fun _ h => List.mem_append_left _ (List.mem_append_left _ (List.mem_append_left _ (List.mem_append_left _ (List.mem_append_left _ (List.mem_append_left _ (List.mem_append_left _ (List.mem_append_left _ (List.mem_append_right _ h))))))))) (by decide +kernel))) (goodIn_sub (fun _ h => List.mem_append_left _ (List.mem_append_left _ (List.mem_append_left _ (List.mem_append_left _ (List.mem_append_left _ (List.mem_append_left _ (List.mem_append_left _ (List.mem_append_right _ h)))))))) (by decide +kernel))
set_option maxRecDepth 20000 in
theorem gL_law_L_has : GoodIn wsL_law (va_wsS RL 150 yL_has wsL_has) := goodIn_app (goodIn_of _ (by decide +kernel)) ggL_law_L_has
set_option maxRecDepth 20000 in
theorem ggL_law_X8_has : GoodIn wsL_law wsX8_has := goodIn_r _ [198, 97, 147, 148, 5, 149, 150, 151, 152, 153, 154, 155, 156, 157, 158, 159, 160, 165, 166, 167, 1314, 1315, 1316, 1317, 1318, 1319, 1320, 1321, 1322, 1323, 1324, 1325, 1326, 1327, 1328, 1329, 1330, 1331, 1332] (by decide +kernel) (by decide +kernel)
set_option maxRecDepth 20000 in
theorem gL_law_X8_has : GoodIn wsL_law (wsV RL 152 RX8 yX8_has wsX8_has) := goodIn_app (goodIn_of _ (by decide +kernel)) ggL_law_X8_has
set_option maxRecDepth 20000 in
theorem ggL_law_L_size : GoodIn wsL_law wsL_size := goodIn_ca (goodIn_r _ [201, 112, 202, 203, 204, 2, 205, 117, 118, 119, 120, 121, 122, 15, 206, 207, 208, 19, 209, 44, 45, 210, 211, 212, 213, 214, 215, 216, 1306, 1307, 1308, 1309, 1310, 1311, 1312, 1313, 1333, 1334] (by decide +kernel) (by decide +kernel)) (goodIn_sub (fun _ h => List.mem_append_left _ (List.mem_append_left _ (List.mem_append_left _ (List.mem_append_left _ (List.mem_append_left _ (List.mem_append_left _ (List.mem_append_left _ (List.mem_append_left _ (List.mem_append_right _ h))))))))) (by decide +kernel))
set_option maxRecDepth 20000 in
theorem gL_law_L_size : GoodIn wsL_law (va_wsS RL 153 yL_size wsL_size) := goodIn_app (goodIn_of _ (by decide +kernel)) ggL_law_L_size
set_option maxRecDepth 20000 in
theorem ggL_law_X8_size : GoodIn wsL_law wsX8_size := goodIn_r _ [220, 97, 147, 148, 5, 149, 150, 151, 152, 156, 157, 158, 159, 160, 221, 222, 223, 1314, 1315, 1316, 1317, 1318, 1319, 1320, 1321, 1322, 1323, 1324, 1325, 1326, 1327, 1328, 1329, 1330, 1331, 1332] (by decide +kernel) (by decide +kernel)
set_option maxRecDepth 20000 in
theorem gL_law_X8_size : GoodIn wsL_law (wsV RL 156 RX8 yX8_size wsX8_size) := goodIn_app (goodIn_of _ (by decide +kernel)) ggL_law_X8_size
set_option maxRecDepth 20000 in
theorem ggL_law_L_sum : GoodIn wsL_law wsL_sum := goodIn_ca (goodIn_r _ [226, 112, 227, 228, 229, 2, 230, 117, 118, 119, 120, 121, 122, 15, 231, 232, 233, 19, 234, 135, 136, 137, 138, 44, 45, 1306, 1307, 1308, 1309, 1310, 1311, 1312, 1313, 1333, 1334] (by decide +kernel) (by decide +kernel)) (goodIn_sub (fun _ h => List.mem_append_left _ (List.mem_append_left _ (List.mem_append_left _ (List.mem_append_left _ (List.mem_append_left _ (List.mem_append_left _ (List.mem_append_left _ (List.mem_append_left _ (List.mem_append_right _ h))))))))) (by decide +kernel))
set_option maxRecDepth 20000 in
theorem gL_law_L_sum : GoodIn wsL_law (va_wsS RL 157 yL_sum wsL_sum) := goodIn_app (goodIn_of _ (by decide +kernel)) ggL_law_L_sum
set_option maxRecDepth 20000 in
theorem ggL_law_X8_sum : GoodIn wsL_law wsX8_sum := goodIn_r _ [238, 97, 147, 148, 5, 149, 150, 151, 152, 156, 157, 158, 159, 160, 239, 240, 241, 242, 243, 244, 1314, 1315, 1316, 1317, 1318, 1319, 1320, 1321, 1322, 1323, 1324, 1325, 1326, 1327, 1328, 1329, 1330, 1331, 1332] (by decide +kernel) (by decide +kernel)
set_option maxRecDepth 20000 in
theorem gL_law_X8_sum : GoodIn wsL_law (wsV RL 159 RX8 yX8_sum wsX8_sum) := goodIn_app (goodIn_of _ (by decide +kernel)) ggL_law_X8_sum
set_option maxRecDepth 20000 in
theorem ggL_law_L_clear : GoodIn wsL_law wsL_clear := goodIn_ca (goodIn_r _ [247, 112, 248, 249, 250, 2, 251, 117, 118, 119, 120, 121, 122, 15, 206, 207, 208, 19, 209, 44, 45, 210, 211, 212, 213, 214, 215, 216, 252, 253, 254, 255, 1306, 1307, 1308, 1309, 1310, 1311, 1312, 1313, 1333, 1334] (by decide +kernel) (by decide +kernel)) (goodIn_sub (fun _ h => List.mem_append_left _ (List.mem_append_left _ (List.mem_append_left _ (List.mem_append_left _ (List.mem_append_left _ (List.mem_append_left _ (List.mem_append_left _ (List.mem_append_left _ (List.mem_append_right _ h))))))))) (by decide +kernel))
set_option maxRecDepth 20000 in
theorem gL_law_L_clear : GoodIn wsL_law (va_wsS RL 160 yL_clear wsL_clear) := goodIn_app (goodIn_of _ (by decide +kernel)) ggL_law_L_clear
set_option maxRecDepth 20000 in
theorem ggL_law_X8_clear : GoodIn wsL_law wsX8_clear := goodIn_r _ [259, 97, 147, 148, 5, 149, 150, 151, 152, 156, 157, 158, 159, 160, 221, 222, 223, 260, 261, 262, 1314, 1315, 1316, 1317, 1318, 1319, 1320, 1321, 1322, 1323, 1324, 1325, 1326, 1327, 1328, 1329, 1330, 1331, 1332] (by decide +kernel) (by decide +kernel)
set_option maxRecDepth 20000 in
theorem gL_law_X8_clear : GoodIn wsL_law (wsV RL 162 RX8 yX8_clear wsX8_clear) := goodIn_app (goodIn_of _ (by decide +kernel)) ggL_law_X8_clear
set_option maxRecDepth 20000 in
theorem ggL_law_L_fill : GoodIn wsL_law wsL_fill := goodIn_ca (goodIn_ca (goodIn_r _ [265, 112, 266, 267, 268, 2, 269, 117, 118, 119, 120, 121, 122, 15, 270, 271, 272, 126, 127, 206, 207, 208, 19, 209, 44, 45, 210, 211, 212, 213, 214, 215, 216, 128, 129, 130, 131, 132, 133, 134, 135, 136, 137, 138, 139, 140, 141, 142, 1306, 1307, 1308, 1309, 1310, 1311, 1312, 1313, 1333, 1334] (by decide +kernel) (by decide +kernel)) (goodIn_sub (fun _ h => List.mem_append_left _ (List.mem_append_left _ (List.mem_append_left _ (List.mem_append_left _ (List.mem_append_left _ (List.mem_append_left _ (List.mem_append_left _ (List.mem_append_left _ (List.mem_append_right _ h))))))))) (by decide +kernel))) (goodIn_sub (fun _ h => List.mem_append_left _ (List.mem_append_left _ (List.mem_append_left _ (List.mem_append_left _ (List.mem_append_left _ (List.mem_append_left _ (List.mem_append_left _ (List.mem_append_right _ h)))))))) (by decide +kernel))
set_option maxRecDepth 20000 in
theorem gL_law_L_fill : GoodIn wsL_law (va_wsS RL 163 yL_fill wsL_fill) := goodIn_app (goodIn_of _ (by decide +kernel)) ggL_law_L_fill
set_option maxRecDepth 20000 in
theorem ggL_law_X8_fill : GoodIn wsL_law wsX8_fill := goodIn_r _ [276, 147, 148, 5, 149, 150, 151, 152, 156, 157, 158, 159, 160, 161, 162, 163, 164, 97, 165, 166, 167, 1314, 1315, 1316, 1317, 1318, 1319, 1320, 1321, 1322, 1323, 1324, 1325, 1326, 1327, 1328, 1329, 1330, 1331, 1332] (by decide +kernel) (by decide +kernel)
set_option maxRecDepth 20000 in
theorem gL_law_X8_fill : GoodIn wsL_law (wsV RL 166 RX8 yX8_fill wsX8_fill) := goodIn_app (goodIn_of _ (by decide +kernel)) ggL_law_X8_fill
set_option maxRecDepth 20000 in
theorem ggL_law_L_memberAt : GoodIn wsL_law wsL_memberAt := goodIn_ca (goodIn_ca (goodIn_r _ [279, 112, 280, 281, 282, 2, 283, 284, 285, 117, 118, 119, 120, 121, 122, 15, 286, 287, 288, 19, 289, 135, 136, 137, 138, 44, 45, 290, 291, 292, 1306, 1307, 1308, 1309, 1310, 1311, 1312, 1313, 1333, 1334] (by decide +kernel) (by decide +kernel)) (goodIn_sub (fun _ h => List.mem_append_left _ (List.mem_append_left _ (List.mem_append_left _ (List.mem_append_left _ (List.mem_append_left _ (List.mem_append_left _ (List.mem_append_right _ h))))))) (by decide +kernel))) (goodIn_sub (fun _ h => List.mem_append_left _ (List.mem_append_left _ (List.mem_append_left _ (List.mem_append_left _ (List.mem_append_left _ (List.mem_append_left _ (List.mem_append_left _ (List.mem_append_left _ (List.mem_append_right _ h))))))))) (by decide +kernel))
set_option maxRecDepth 20000 in
theorem gL_law_L_memberAt : GoodIn wsL_law (va_wsS RL 167 yL_memberAt wsL_memberAt) := goodIn_app (goodIn_of _ (by decide +kernel)) ggL_law_L_memberAt
set_option maxRecDepth 20000 in
theorem ggL_law_X8_memberAt : GoodIn wsL_law wsX8_memberAt := goodIn_r _ [296, 97, 147, 148, 5, 149, 150, 151, 152, 297, 298, 299, 156, 157, 158, 159, 160, 242, 243, 244, 1314, 1315, 1316, 1317, 1318, 1319, 1320, 1321, 1322, 1323, 1324, 1325, 1326, 1327, 1328, 1329, 1330, 1331, 1332] (by decide +kernel) (by decide +kernel)
set_option maxRecDepth 20000 in
theorem gL_law_X8_memberAt : GoodIn wsL_law (wsV RL 169 RX8 yX8_memberAt wsX8_memberAt) := goodIn_app (goodIn_of _ (by decide +kernel)) ggL_law_X8_memberAt
set_option maxRecDepth 20000 in
theorem ggL_law_L_least : GoodIn wsL_law wsL_least := goodIn_ca (goodIn_ca (goodIn_r _ [302, 112, 303, 304, 305, 2, 306, 117, 118, 119, 120, 121, 122, 15, 307, 308, 309, 19, 310, 135, 136, 137, 138, 44, 45, 311, 312, 313, 284, 285, 1306, 1307, 1308, 1309, 1310, 1311, 1312, 1313, 1333, 1334] (by decide +kernel) (by decide +kernel)) (goodIn_sub (fun _ h => List.mem_append_left _ (List.mem_append_left _ (List.mem_append_left _ (List.mem_append_left _ (List.mem_append_left _ (List.mem_append_left _ (List.mem_append_left _ (List.mem_append_left _ (List.mem_append_right _ h))))))))) (by decide +kernel))) (goodIn_sub (fun _ h => List.mem_append_left _ (List.mem_append_left _ (List.mem_append_left _ (List.mem_append_left _ (List.mem_append_left _ (List.mem_append_left _ (List.mem_append_right _ h))))))) (by decide +kernel))
set_option maxRecDepth 20000 in
theorem gL_law_L_least : GoodIn wsL_law (va_wsS RL 170 yL_least wsL_least) := goodIn_app (goodIn_of _ (by decide +kernel)) ggL_law_L_least
set_option maxRecDepth 20000 in
theorem ggL_law_X8_least : GoodIn wsL_law wsX8_least := goodIn_r _ [317, 97, 147, 148, 5, 149, 150, 151, 152, 156, 157, 158, 159, 160, 242, 243, 244, 1314, 1315, 1316, 1317, 1318, 1319, 1320, 1321, 1322, 1323, 1324, 1325, 1326, 1327, 1328, 1329, 1330, 1331, 1332] (by decide +kernel) (by decide +kernel)
set_option maxRecDepth 20000 in
theorem gL_law_X8_least : GoodIn wsL_law (wsV RL 172 RX8 yX8_least wsX8_least) := goodIn_app (goodIn_of _ (by decide +kernel)) ggL_law_X8_least
set_option maxRecDepth 20000 in
theorem ggL_law_L_greatest : GoodIn wsL_law wsL_greatest := goodIn_ca (goodIn_ca (goodIn_r _ [320, 112, 321, 322, 323, 2, 324, 117, 118, 119, 120, 121, 122, 15, 325, 326, 327, 19, 328, 135, 136, 137, 138, 44, 45, 311, 312, 313, 284, 285, 1306, 1307, 1308, 1309, 1310, 1311, 1312, 1313, 1333, 1334] (by decide +kernel) (by decide +kernel)) (goodIn_sub (fun _ h => List.mem_append_left _ (List.mem_append_left _ (List.mem_append_left _ (List.mem_append_left _ (List.mem_append_left _ (List.mem_append_left _ (List.mem_append_left _ (List.mem_append_left _ (List.mem_append_right _ h))))))))) (by decide +kernel))) (goodIn_sub (fun _ h => List.mem_append_left _ (List.mem_append_left _ (List.mem_append_left _ (List.mem_append_left _ (List.mem_append_left _ (List.mem_append_left _ (List.mem_append_right _ h))))))) (by decide +kernel))
set_option maxRecDepth 20000 in
theorem gL_law_L_greatest : GoodIn wsL_law (va_wsS RL 173 yL_greatest wsL_greatest) := goodIn_app (goodIn_of _ (by decide +kernel)) ggL_law_L_greatest
set_option maxRecDepth 20000 in
theorem ggL_law_X8_greatest : GoodIn wsL_law wsX8_greatest := goodIn_r _ [332, 97, 147, 148, 5, 149, 150, 151, 152, 156, 157, 158, 159, 160, 242, 243, 244, 1314, 1315, 1316, 1317, 1318, 1319, 1320, 1321, 1322, 1323, 1324, 1325, 1326, 1327, 1328, 1329, 1330, 1331, 1332] (by decide +kernel) (by decide +kernel)
set_option maxRecDepth 20000 in
theorem gL_law_X8_greatest : GoodIn wsL_law (wsV RL 175 RX8 yX8_greatest wsX8_greatest) := goodIn_app (goodIn_of _ (by decide +kernel)) ggL_law_X8_greatest
set_option maxRecDepth 20000 in
theorem ggL_law_L_unite : GoodIn wsL_law wsL_unite := goodIn_ca (goodIn_ca (goodIn_r _ [335, 112, 336, 337, 338, 2, 339, 117, 118, 119, 120, 121, 122, 15, 340, 341, 342, 19, 343, 344, 127, 44, 45, 345, 1306, 1307, 1308, 1309, 1310, 1311, 1312, 1313, 1333, 1334] (by decide +kernel) (by decide +kernel)) (goodIn_sub (fun _ h => List.mem_append_left _ (List.mem_append_left _ (List.mem_append_left _ (List.mem_append_left _ (List.mem_append_left _ (List.mem_append_left _ (List.mem_append_left _ (List.mem_append_left _ (List.mem_append_right _ h))))))))) (by decide +kernel))) (goodIn_sub (fun _ h => List.mem_append_left _ (List.mem_append_left _ (List.mem_append_left _ (List.mem_append_left _ (List.mem_append_left _ (List.mem_append_right _ h)))))) (by decide +kernel))
set_option maxRecDepth 20000 in
theorem gL_law_L_unite : GoodIn wsL_law (va_wsS RL 176 yL_unite wsL_unite) := goodIn_app (goodIn_of _ (by decide +kernel)) ggL_law_L_unite
set_option maxRecDepth 20000 in
theorem ggL_law_X8_unite : GoodIn wsL_law wsX8_unite := goodIn_r _ [349, 350, 351, 352, 5, 353, 97, 98, 147, 148, 149, 150, 151, 152, 156, 157, 158, 159, 160, 354, 355, 356, 260, 261, 262, 357, 358, 359, 360, 361, 362, 1314, 1315, 1316, 1317, 1318, 1319, 1320, 1321, 1322, 1323, 1324, 1325, 1326, 1327, 1328, 1329, 1330, 1331, 1332] (by decide +kernel) (by decide +kernel)
set_option maxRecDepth 20000 in
theorem gL_law_X8_unite : GoodIn wsL_law (wsV RL 178 RX8 yX8_unite wsX8_unite) := goodIn_app (goodIn_of _ (by decide +kernel)) ggL_law_X8_unite
