set_option maxRecDepth 20000 in
theorem ggL_law_L_meet : GoodIn wsL_law wsL_meet := goodIn_ca (goodIn_ca (goodIn_r _ [365, 112, 366, 367, 368, 2, 369, 117, 118, 119, 120, 121, 122, 15, 340, 341, 342, 19, 343, 344, 127, 44, 45, 345, 1306, 1307, 1308, 1309, 1310, 1311, 1312, 1313, 1333, 1334] (by decide +kernel) (by decide +kernel)) (goodIn_sub (fun _ h => List.mem_append_left _ (List.mem_append_left _ (List.mem_append_left _ (List.mem_append_left _ (List.mem_append_left _ (List.mem_append_left _ (List.mem_append_left _ (List.mem_append_left _ (List.mem_append_right _ h))))))))) (by decide +kernel))) (goodIn_sub (fun _ h => List.mem_append_left _ (List.mem_append_left _ (List.mem_append_left _ (List.mem_append_left _ (List.mem_append_left _ (List.mem_append_right _ h)))))) (by decide +kernel))
set_option maxRecDepth 20000 in
theorem gL_law_L_meet : GoodIn wsL_law (va_wsS RL 179 yL_meet wsL_meet) := goodIn_app (goodIn_of _ (by decide +kernel)) ggL_law_L_meet
set_option maxRecDepth 20000 in
theorem ggL_law_X8_meet : GoodIn wsL_law wsX8_meet := goodIn_r _ [373, 350, 351, 352, 5, 353, 97, 98, 147, 148, 149, 150, 151, 152, 156, 157, 158, 159, 160, 354, 355, 356, 260, 261, 262, 357, 358, 359, 360, 361, 362, 1314, 1315, 1316, 1317, 1318, 1319, 1320, 1321, 1322, 1323, 1324, 1325, 1326, 1327, 1328, 1329, 1330, 1331, 1332] (by decide +kernel) (by decide +kernel)
set_option maxRecDepth 20000 in
theorem gL_law_X8_meet : GoodIn wsL_law (wsV RL 181 RX8 yX8_meet wsX8_meet) := goodIn_app (goodIn_of _ (by decide +kernel)) ggL_law_X8_meet
set_option maxRecDepth 20000 in
theorem ggL_law_L_without : GoodIn wsL_law wsL_without := goodIn_ca (goodIn_ca (goodIn_r _ [376, 112, 377, 378, 379, 2, 380, 117, 118, 119, 120, 121, 122, 15, 340, 341, 342, 19, 343, 344, 127, 44, 45, 345, 1306, 1307, 1308, 1309, 1310, 1311, 1312, 1313, 1333, 1334] (by decide +kernel) (by decide +kernel)) (goodIn_sub (fun _ h => List.mem_append_left _ (List.mem_append_left _ (List.mem_append_left _ (List.mem_append_left _ (List.mem_append_left _ (List.mem_append_left _ (List.mem_append_left _ (List.mem_append_left _ (List.mem_append_right _ h))))))))) (by decide +kernel))) (goodIn_sub (fun _ h => List.mem_append_left _ (List.mem_append_left _ (List.mem_append_left _ (List.mem_append_left _ (List.mem_append_left _ (List.mem_append_right _ h)))))) (by decide +kernel))
set_option maxRecDepth 20000 in
theorem gL_law_L_without : GoodIn wsL_law (va_wsS RL 182 yL_without wsL_without) := goodIn_app (goodIn_of _ (by decide +kernel)) ggL_law_L_without
set_option maxRecDepth 20000 in
theorem ggL_law_X8_without : GoodIn wsL_law wsX8_without := goodIn_r _ [384, 350, 351, 352, 5, 353, 97, 98, 147, 148, 149, 150, 151, 152, 156, 157, 158, 159, 160, 354, 355, 356, 260, 261, 262, 357, 358, 359, 360, 361, 362, 1314, 1315, 1316, 1317, 1318, 1319, 1320, 1321, 1322, 1323, 1324, 1325, 1326, 1327, 1328, 1329, 1330, 1331, 1332] (by decide +kernel) (by decide +kernel)
set_option maxRecDepth 20000 in
theorem gL_law_X8_without : GoodIn wsL_law (wsV RL 184 RX8 yX8_without wsX8_without) := goodIn_app (goodIn_of _ (by decide +kernel)) ggL_law_X8_without
set_option maxRecDepth 20000 in
theorem ggL_law_L_copy : GoodIn wsL_law wsL_copy := goodIn_ca (goodIn_r _ [387, 112, 388, 389, 390, 2, 391, 117, 118, 119, 120, 121, 122, 15, 392, 393, 394, 19, 395, 44, 45, 206, 207, 208, 209, 210, 211, 212, 213, 214, 215, 216, 1306, 1307, 1308, 1309, 1310, 1311, 1312, 1313, 1333, 1334] (by decide +kernel) (by decide +kernel)) (goodIn_sub (fun _ h => List.mem_append_left _ (List.mem_append_left _ (List.mem_append_left _ (List.mem_append_left _ (List.mem_append_left _ (List.mem_append_left _ (List.mem_append_left _ (List.mem_append_left _ (List.mem_append_right _ h))))))))) (by decide +kernel))
set_option maxRecDepth 20000 in
theorem gL_law_L_copy : GoodIn wsL_law (va_wsS RL 185 yL_copy wsL_copy) := goodIn_app (goodIn_of _ (by decide +kernel)) ggL_law_L_copy
set_option maxRecDepth 20000 in
theorem ggL_law_X8_copy : GoodIn wsL_law wsX8_copy := goodIn_r _ [399, 97, 147, 148, 5, 149, 150, 151, 152, 156, 157, 158, 159, 160, 354, 355, 356, 221, 222, 223, 1314, 1315, 1316, 1317, 1318, 1319, 1320, 1321, 1322, 1323, 1324, 1325, 1326, 1327, 1328, 1329, 1330, 1331, 1332] (by decide +kernel) (by decide +kernel)
set_option maxRecDepth 20000 in
theorem gL_law_X8_copy : GoodIn wsL_law (wsV RL 187 RX8 yX8_copy wsX8_copy) := goodIn_app (goodIn_of _ (by decide +kernel)) ggL_law_X8_copy
set_option maxRecDepth 20000 in
theorem ggL_law_L_sieve : GoodIn wsL_law wsL_sieve := goodIn_ca (goodIn_ca (goodIn_r _ [402, 112, 403, 404, 405, 2, 406, 117, 118, 119, 120, 121, 122, 15, 270, 271, 272, 126, 127, 206, 207, 208, 19, 209, 44, 45, 210, 211, 212, 213, 214, 215, 216, 407, 408, 409, 410, 179, 180, 181, 182, 135, 136, 137, 138, 139, 140, 141, 142, 1306, 1307, 1308, 1309, 1310, 1311, 1312, 1313, 1333, 1334] (by decide +kernel) (by decide +kernel)) (goodIn_sub (fun _ h => List.mem_append_left _ (List.mem_append_left _ (List.mem_append_left _ (List.mem_append_left _ (List.mem_append_left _ (List.mem_append_left _ (List.mem_append_left _ (List.mem_append_left _ (List.mem_append_right _ h))))))))) (by decide +kernel))) (goodIn_sub (fun _ h => List.mem_append_left _ (List.mem_append_left _ (List.mem_append_left _ (List.mem_append_left _ (List.mem_append_left _ (List.mem_append_left _ (List.mem_append_left _ (List.mem_append_right _ h)))))))) (by decide +kernel))
set_option maxRecDepth 20000 in
theorem gL_law_L_sieve : GoodIn wsL_law (va_wsS RL 188 yL_sieve wsL_sieve) := goodIn_app (goodIn_of _ (by decide +kernel)) ggL_law_L_sieve
set_option maxRecDepth 20000 in
theorem ggL_law_X8_sieve : GoodIn wsL_law wsX8_sieve := goodIn_r _ [414, 147, 148, 5, 149, 150, 151, 152, 156, 157, 158, 159, 160, 161, 162, 163, 164, 97, 165, 166, 167, 1314, 1315, 1316, 1317, 1318, 1319, 1320, 1321, 1322, 1323, 1324, 1325, 1326, 1327, 1328, 1329, 1330, 1331, 1332] (by decide +kernel) (by decide +kernel)
set_option maxRecDepth 20000 in
theorem gL_law_X8_sieve : GoodIn wsL_law (wsV RL 191 RX8 yX8_sieve wsX8_sieve) := goodIn_app (goodIn_of _ (by decide +kernel)) ggL_law_X8_sieve
set_option maxRecDepth 20000 in
theorem ggL_law_L_isWithin : GoodIn wsL_law wsL_isWithin := goodIn_ca (goodIn_ca (goodIn_r _ [417, 112, 418, 419, 420, 2, 421, 117, 118, 119, 120, 121, 122, 15, 422, 423, 424, 19, 425, 344, 127, 44, 345, 45, 1306, 1307, 1308, 1309, 1310, 1311, 1312, 1313, 1333, 1334] (by decide +kernel) (by decide +kernel)) (goodIn_sub (fun _ h => List.mem_append_left _ (List.mem_append_left _ (List.mem_append_left _ (List.mem_append_left _ (List.mem_append_left _ (List.mem_append_left _ (List.mem_append_left _ (List.mem_append_left _ (List.mem_append_right _ h))))))))) (by decide +kernel))) (goodIn_sub (fun _ h => List.mem_append_left _ (List.mem_append_left _ (List.mem_append_left _ (List.mem_append_left _ (List.mem_append_left _ (List.mem_append_right _ h)))))) (by decide +kernel))
set_option maxRecDepth 20000 in
theorem gL_law_L_isWithin : GoodIn wsL_law (va_wsS RL 192 yL_isWithin wsL_isWithin) := goodIn_app (goodIn_of _ (by decide +kernel)) ggL_law_L_isWithin
set_option maxRecDepth 20000 in
theorem ggL_law_X8_isWithin : GoodIn wsL_law wsX8_isWithin := goodIn_r _ [429, 97, 147, 148, 5, 149, 150, 151, 152, 156, 157, 158, 159, 160, 430, 431, 432, 1314, 1315, 1316, 1317, 1318, 1319, 1320, 1321, 1322, 1323, 1324, 1325, 1326, 1327, 1328, 1329, 1330, 1331, 1332] (by decide +kernel) (by decide +kernel)
set_option maxRecDepth 20000 in
theorem gL_law_X8_isWithin : GoodIn wsL_law (wsV RL 194 RX8 yX8_isWithin wsX8_isWithin) := goodIn_app (goodIn_of _ (by decide +kernel)) ggL_law_X8_isWithin
set_option maxRecDepth 20000 in
theorem ggL_law_L_isApart : GoodIn wsL_law wsL_isApart := goodIn_ca (goodIn_r _ [435, 112, 436, 437, 438, 2, 439, 117, 118, 119, 120, 121, 122, 15, 440, 441, 442, 19, 443, 44, 45, 1306, 1307, 1308, 1309, 1310, 1311, 1312, 1313, 1333, 1334] (by decide +kernel) (by decide +kernel)) (goodIn_sub (fun _ h => List.mem_append_left _ (List.mem_append_left _ (List.mem_append_left _ (List.mem_append_left _ (List.mem_append_left _ (List.mem_append_left _ (List.mem_append_left _ (List.mem_append_left _ (List.mem_append_right _ h))))))))) (by decide +kernel))
set_option maxRecDepth 20000 in
theorem gL_law_L_isApart : GoodIn wsL_law (va_wsS RL 195 yL_isApart wsL_isApart) := goodIn_app (goodIn_of _ (by decide +kernel)) ggL_law_L_isApart
set_option maxRecDepth 20000 in
theorem ggL_law_X8_isApart : GoodIn wsL_law wsX8_isApart := goodIn_r _ [447, 97, 98, 147, 148, 5, 149, 150, 151, 152, 156, 157, 158, 159, 160, 260, 261, 262, 221, 222, 223, 1314, 1315, 1316, 1317, 1318, 1319, 1320, 1321, 1322, 1323, 1324, 1325, 1326, 1327, 1328, 1329, 1330, 1331, 1332] (by decide +kernel) (by decide +kernel)
set_option maxRecDepth 20000 in
theorem gL_law_X8_isApart : GoodIn wsL_law (wsV RL 197 RX8 yX8_isApart wsX8_isApart) := goodIn_app (goodIn_of _ (by decide +kernel)) ggL_law_X8_isApart
set_option maxRecDepth 20000 in
theorem ggL_law_L_isSame : GoodIn wsL_law wsL_isSame := goodIn_ca (goodIn_r _ [450, 112, 451, 452, 453, 2, 454, 117, 118, 119, 120, 121, 122, 15, 455, 456, 457, 19, 458, 44, 45, 1306, 1307, 1308, 1309, 1310, 1311, 1312, 1313, 1333, 1334] (by decide +kernel) (by decide +kernel)) (goodIn_sub (fun _ h => List.mem_append_left _ (List.mem_append_left _ (List.mem_append_left _ (List.mem_append_left _ (List.mem_append_left _ (List.mem_append_left _ (List.mem_append_left _ (List.mem_append_left _ (List.mem_append_right _ h))))))))) (by decide +kernel))
set_option maxRecDepth 20000 in
theorem gL_law_L_isSame : GoodIn wsL_law (va_wsS RL 198 yL_isSame wsL_isSame) := goodIn_app (goodIn_of _ (by decide +kernel)) ggL_law_L_isSame
set_option maxRecDepth 20000 in
theorem ggL_law_X8_isSame : GoodIn wsL_law wsX8_isSame := goodIn_r _ [462, 97, 147, 148, 5, 149, 150, 151, 152, 156, 157, 158, 159, 160, 357, 358, 359, 360, 361, 362, 1314, 1315, 1316, 1317, 1318, 1319, 1320, 1321, 1322, 1323, 1324, 1325, 1326, 1327, 1328, 1329, 1330, 1331, 1332] (by decide +kernel) (by decide +kernel)
set_option maxRecDepth 20000 in
theorem gL_law_X8_isSame : GoodIn wsL_law (wsV RL 200 RX8 yX8_isSame wsX8_isSame) := goodIn_app (goodIn_of _ (by decide +kernel)) ggL_law_X8_isSame
set_option maxRecDepth 20000 in
theorem ggL_law_L_vote : GoodIn wsL_law wsL_vote := goodIn_ca (goodIn_r _ [465, 466, 467, 468, 469, 2, 470, 123, 124, 125, 126, 127, 128, 129, 130, 471, 472, 473, 474, 15, 194, 136, 137, 19, 138, 44, 45, 1306, 1307, 1308, 1309, 1310, 1311, 1312, 1313, 1333, 1334] (by decide +kernel) (by decide +kernel)) (goodIn_sub (fun _ h => List.mem_append_left _ (List.mem_append_left _ (List.mem_append_left _ (List.mem_append_left _ (List.mem_append_left _ (List.mem_append_left _ (List.mem_append_left _ (List.mem_append_right _ h)))))))) (by decide +kernel))
set_option maxRecDepth 20000 in
theorem gL_law_L_vote : GoodIn wsL_law (va_wsS RL 201 yL_vote wsL_vote) := goodIn_app (goodIn_of _ (by decide +kernel)) ggL_law_L_vote
set_option maxRecDepth 20000 in
theorem ggL_law_X8_vote : GoodIn wsL_law wsX8_vote := goodIn_r _ [478, 153, 154, 5, 155, 150, 151, 152, 156, 157, 158, 159, 160, 165, 166, 167, 479, 480, 481, 482, 97, 1314, 1315, 1316, 1317, 1318, 1319, 1320, 1321, 1322, 1323, 1324, 1325, 1326, 1327, 1328, 1329, 1330, 1331, 1332] (by decide +kernel) (by decide +kernel)
set_option maxRecDepth 20000 in
theorem gL_law_X8_vote : GoodIn wsL_law (wsV RL 203 RX8 yX8_vote wsX8_vote) := goodIn_app (goodIn_of _ (by decide +kernel)) ggL_law_X8_vote
set_option maxRecDepth 20000 in
theorem ggL_law_L_elect : GoodIn wsL_law wsL_elect := goodIn_ca (goodIn_ca (goodIn_r _ [485, 112, 486, 487, 488, 2, 489, 27, 117, 118, 119, 120, 121, 122, 15, 270, 271, 272, 126, 127, 252, 253, 254, 19, 255, 44, 45, 471, 472, 473, 474, 194, 136, 137, 138, 131, 132, 133, 134, 135, 139, 140, 141, 142, 392, 393, 394, 395, 206, 207, 208, 209, 210, 211, 212, 213, 214, 215, 216, 1306, 1307, 1308, 1309, 1310, 1311, 1312, 1313, 1333, 1334] (by decide +kernel) (by decide +kernel)) (goodIn_sub (fun _ h => List.mem_append_left _ (List.mem_append_left _ (List.mem_append_left _ (List.mem_append_left _ (List.mem_append_left _ (List.mem_append_left _ (List.mem_append_left _ (List.mem_append_left _ (List.mem_append_right _ h))))))))) (by decide +kernel))) (goodIn_sub (fun _ h => List.mem_append_left _ (List.mem_append_left _ (List.mem_append_left _ (List.mem_append_left _ (List.mem_append_left _ (List.mem_append_left _ (List.mem_append_left _ (List.mem_append_right _ h)))))))) (by decide +kernel))
set_option maxRecDepth 20000 in
theorem gL_law_L_elect : GoodIn wsL_law (va_wsS RL 204 yL_elect wsL_elect) := goodIn_app (goodIn_of _ (by decide +kernel)) ggL_law_L_elect
set_option maxRecDepth 20000 in
theorem ggL_law_X8_elect : GoodIn wsL_law wsX8_elect := goodIn_r _ [493, 97, 147, 148, 5, 149, 150, 151, 152, 156, 157, 158, 159, 160, 479, 480, 481, 482, 221, 222, 223, 1314, 1315, 1316, 1317, 1318, 1319, 1320, 1321, 1322, 1323, 1324, 1325, 1326, 1327, 1328, 1329, 1330, 1331, 1332] (by decide +kernel) (by decide +kernel)
set_option maxRecDepth 20000 in
theorem gL_law_X8_elect : GoodIn wsL_law (wsV RL 206 RX8 yX8_elect wsX8_elect) := goodIn_app (goodIn_of _ (by decide +kernel)) ggL_law_X8_elect
set_option maxRecDepth 20000 in
theorem ggL_law_L_keep : GoodIn wsL_law wsL_keep := goodIn_ca (goodIn_ca (goodIn_r _ [496, 112, 497, 498, 499, 2, 500, 501, 502, 25, 117, 118, 119, 120, 121, 122, 15, 503, 504, 505, 24, 506, 58, 56, 507, 456, 457, 19, 458, 44, 45, 508, 509, 510, 511, 512, 513, 514, 515, 516, 517, 393, 394, 395, 1306, 1307, 1308, 1309, 1310, 1311, 1312, 1313, 1336, 1337, 1338, 1333, 1334] (by decide +kernel) (by decide +kernel)) (goodIn_sub (fun _ h => List.mem_append_left _ (List.mem_append_left _ (List.mem_append_left _ (List.mem_append_left _ (List.mem_append_right _ h))))) (by decide +kernel))) (goodIn_sub (fun _ h => List.mem_append_left _ (List.mem_append_left _ (List.mem_append_left _ (List.mem_append_left _ (List.mem_append_left _ (List.mem_append_left _ (List.mem_append_left _ (List.mem_append_left _ (List.mem_append_right _ h))))))))) (by decide +kernel))
set_option maxRecDepth 20000 in
theorem gL_law_L_keep : GoodIn wsL_law (va_wsS RL 207 yL_keep wsL_keep) := goodIn_app (goodIn_of _ (by decide +kernel)) ggL_law_L_keep
set_option maxRecDepth 20000 in
theorem ggL_law_X8_keep : GoodIn wsL_law wsX8_keep := goodIn_r _ [521, 99, 107, 97, 147, 148, 5, 149, 150, 151, 152, 522, 523, 524, 357, 358, 359, 360, 361, 362, 156, 157, 158, 159, 160, 525, 526, 527, 528, 529, 530, 354, 355, 356, 1314, 1315, 1316, 1317, 1318, 1319, 1320, 1321, 1322, 1323, 1324, 1325, 1326, 1327, 1328, 1329, 1330, 1331, 1332] (by decide +kernel) (by decide +kernel)
set_option maxRecDepth 20000 in
theorem gL_law_X8_keep : GoodIn wsL_law (wsV RL 209 RX8 yX8_keep wsX8_keep) := goodIn_app (goodIn_of _ (by decide +kernel)) ggL_law_X8_keep
set_option maxRecDepth 20000 in
theorem ggL_law_L_drop : GoodIn wsL_law wsL_drop := goodIn_ca (goodIn_r _ [533, 112, 534, 535, 536, 2, 537, 25, 117, 118, 119, 120, 121, 122, 15, 538, 539, 540, 24, 541, 58, 56, 512, 504, 505, 506, 507, 456, 457, 19, 458, 44, 45, 517, 393, 394, 395, 1306, 1307, 1308, 1309, 1310, 1311, 1312, 1313, 1336, 1337, 1338, 1333, 1334] (by decide +kernel) (by decide +kernel)) (goodIn_sub (fun _ h => List.mem_append_left _ (List.mem_append_left _ (List.mem_append_left _ (List.mem_append_left _ (List.mem_append_left _ (List.mem_append_left _ (List.mem_append_left _ (List.mem_append_left _ (List.mem_append_right _ h))))))))) (by decide +kernel))
set_option maxRecDepth 20000 in
theorem gL_law_L_drop : GoodIn wsL_law (va_wsS RL 210 yL_drop wsL_drop) := goodIn_app (goodIn_of _ (by decide +kernel)) ggL_law_L_drop
set_option maxRecDepth 20000 in
theorem ggL_law_X8_drop : GoodIn wsL_law wsX8_drop := goodIn_r _ [545, 99, 107, 97, 147, 148, 5, 149, 150, 151, 152, 156, 157, 158, 159, 160, 522, 523, 524, 357, 358, 359, 360, 361, 362, 354, 355, 356, 1314, 1315, 1316, 1317, 1318, 1319, 1320, 1321, 1322, 1323, 1324, 1325, 1326, 1327, 1328, 1329, 1330, 1331, 1332] (by decide +kernel) (by decide +kernel)
set_option maxRecDepth 20000 in
theorem gL_law_X8_drop : GoodIn wsL_law (wsV RL 212 RX8 yX8_drop wsX8_drop) := goodIn_app (goodIn_of _ (by decide +kernel)) ggL_law_X8_drop
set_option maxRecDepth 20000 in
theorem ggL_law_L_isKept : GoodIn wsL_law wsL_isKept := goodIn_ca (goodIn_r _ [548, 112, 549, 550, 551, 2, 552, 25, 117, 118, 119, 120, 121, 122, 15, 503, 504, 505, 24, 506, 58, 56, 507, 456, 457, 19, 458, 44, 45, 1306, 1307, 1308, 1309, 1310, 1311, 1312, 1313, 1336, 1337, 1338, 1333, 1334] (by decide +kernel) (by decide +kernel)) (goodIn_sub (fun _ h => List.mem_append_left _ (List.mem_append_left _ (List.mem_append_left _ (List.mem_append_left _ (List.mem_append_left _ (List.mem_append_left _ (List.mem_append_left _ (List.mem_append_left _ (List.mem_append_right _ h))))))))) (by decide +kernel))
set_option maxRecDepth 20000 in
theorem gL_law_L_isKept : GoodIn wsL_law (va_wsS RL 213 yL_isKept wsL_isKept) := goodIn_app (goodIn_of _ (by decide +kernel)) ggL_law_L_isKept
set_option maxRecDepth 20000 in
theorem ggL_law_X8_isKept : GoodIn wsL_law wsX8_isKept := goodIn_r _ [556, 99, 107, 97, 147, 148, 5, 149, 150, 151, 152, 156, 157, 158, 159, 160, 522, 523, 524, 357, 358, 359, 360, 361, 362, 1314, 1315, 1316, 1317, 1318, 1319, 1320, 1321, 1322, 1323, 1324, 1325, 1326, 1327, 1328, 1329, 1330, 1331, 1332] (by decide +kernel) (by decide +kernel)
set_option maxRecDepth 20000 in
theorem gL_law_X8_isKept : GoodIn wsL_law (wsV RL 215 RX8 yX8_isKept wsX8_isKept) := goodIn_app (goodIn_of _ (by decide +kernel)) ggL_law_X8_isKept
set_option maxRecDepth 20000 in
theorem ggL_law_X7_kept : GoodIn wsL_law wsX7_kept := goodIn_r _ [560, 25, 561, 562, 563, 24, 564, 58, 1306, 1307, 1308, 1309, 1310, 1311, 1312, 1313, 1336, 1337, 1338] (by decide +kernel) (by decide +kernel)
set_option maxRecDepth 20000 in
theorem gL_law_X7_kept : GoodIn wsL_law (wsV RL 216 RX7 yX7_kept wsX7_kept) := goodIn_app (goodIn_of _ (by decide +kernel)) ggL_law_X7_kept
