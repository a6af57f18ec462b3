set_option maxRecDepth 20000 in
theorem ggL_law_X8_kept : GoodIn wsL_law wsX8_kept := goodIn_r _ [568, 160, 107, 1314, 1315, 1316, 1317, 1318, 1319, 1320, 1321, 1322, 1323, 1324, 1325, 1326, 1327, 1328, 1329, 1330, 1331, 1332] (by decide +kernel) (by decide +kernel)
set_option maxRecDepth 20000 in
theorem gL_law_X8_kept : GoodIn wsL_law (wsV RL 219 RX8 yX8_kept wsX8_kept) := goodIn_app (goodIn_of _ (by decide +kernel)) ggL_law_X8_kept
set_option maxRecDepth 20000 in
theorem ggL_law_X7_keptSum : GoodIn wsL_law wsX7_keptSum := goodIn_r _ [572, 25, 573, 574, 575, 24, 576, 58, 56, 577, 232, 233, 19, 234, 135, 136, 137, 138, 44, 45, 1306, 1307, 1308, 1309, 1310, 1311, 1312, 1313, 1336, 1337, 1338, 1333, 1334] (by decide +kernel) (by decide +kernel)
set_option maxRecDepth 20000 in
theorem gL_law_X7_keptSum : GoodIn wsL_law (wsV RL 220 RX7 yX7_keptSum wsX7_keptSum) := goodIn_app (goodIn_of _ (by decide +kernel)) ggL_law_X7_keptSum
set_option maxRecDepth 20000 in
theorem ggL_law_X8_keptSum : GoodIn wsL_law wsX8_keptSum := goodIn_r _ [581, 160, 107, 99, 239, 240, 5, 241, 242, 243, 244, 1314, 1315, 1316, 1317, 1318, 1319, 1320, 1321, 1322, 1323, 1324, 1325, 1326, 1327, 1328, 1329, 1330, 1331, 1332] (by decide +kernel) (by decide +kernel)
set_option maxRecDepth 20000 in
theorem gL_law_X8_keptSum : GoodIn wsL_law (wsV RL 223 RX8 yX8_keptSum wsX8_keptSum) := goodIn_app (goodIn_of _ (by decide +kernel)) ggL_law_X8_keptSum
set_option maxRecDepth 20000 in
theorem ggL_law_X7_dropAll : GoodIn wsL_law wsX7_dropAll := goodIn_r _ [585, 25, 561, 562, 563, 24, 564, 58, 586, 587, 588, 589, 1306, 1307, 1308, 1309, 1310, 1311, 1312, 1313, 1336, 1337, 1338] (by decide +kernel) (by decide +kernel)
set_option maxRecDepth 20000 in
theorem gL_law_X7_dropAll : GoodIn wsL_law (wsV RL 224 RX7 yX7_dropAll wsX7_dropAll) := goodIn_app (goodIn_of _ (by decide +kernel)) ggL_law_X7_dropAll
set_option maxRecDepth 20000 in
theorem ggL_law_X8_dropAll : GoodIn wsL_law wsX8_dropAll := goodIn_r _ [593, 160, 107, 1314, 1315, 1316, 1317, 1318, 1319, 1320, 1321, 1322, 1323, 1324, 1325, 1326, 1327, 1328, 1329, 1330, 1331, 1332] (by decide +kernel) (by decide +kernel)
set_option maxRecDepth 20000 in
theorem gL_law_X8_dropAll : GoodIn wsL_law (wsV RL 227 RX8 yX8_dropAll wsX8_dropAll) := goodIn_app (goodIn_of _ (by decide +kernel)) ggL_law_X8_dropAll
set_option maxRecDepth 20000 in
theorem ggL_law_L_placeOf : GoodIn wsL_law wsL_placeOf := goodIn_ca (goodIn_r _ [596, 112, 597, 598, 599, 2, 600, 25, 117, 118, 119, 120, 121, 122, 15, 503, 504, 505, 24, 506, 58, 56, 507, 456, 457, 19, 458, 44, 45, 1306, 1307, 1308, 1309, 1310, 1311, 1312, 1313, 1336, 1337, 1338, 1333, 1334] (by decide +kernel) (by decide +kernel)) (goodIn_sub (fun _ h => List.mem_append_left _ (List.mem_append_left _ (List.mem_append_left _ (List.mem_append_left _ (List.mem_append_left _ (List.mem_append_left _ (List.mem_append_left _ (List.mem_append_left _ (List.mem_append_right _ h))))))))) (by decide +kernel))
set_option maxRecDepth 20000 in
theorem gL_law_L_placeOf : GoodIn wsL_law (va_wsS RL 228 yL_placeOf wsL_placeOf) := goodIn_app (goodIn_of _ (by decide +kernel)) ggL_law_L_placeOf
set_option maxRecDepth 20000 in
theorem ggL_law_X8_placeOf : GoodIn wsL_law wsX8_placeOf := goodIn_r _ [604, 99, 107, 97, 147, 148, 5, 149, 150, 151, 152, 156, 157, 158, 159, 160, 522, 523, 524, 357, 358, 359, 360, 361, 362, 1314, 1315, 1316, 1317, 1318, 1319, 1320, 1321, 1322, 1323, 1324, 1325, 1326, 1327, 1328, 1329, 1330, 1331, 1332] (by decide +kernel) (by decide +kernel)
set_option maxRecDepth 20000 in
theorem gL_law_X8_placeOf : GoodIn wsL_law (wsV RL 230 RX8 yX8_placeOf wsX8_placeOf) := goodIn_app (goodIn_of _ (by decide +kernel)) ggL_law_X8_placeOf
set_option maxRecDepth 20000 in
theorem ggL_law_L_take : GoodIn wsL_law wsL_take := goodIn_ca (goodIn_ca (goodIn_r _ [607, 112, 608, 609, 610, 2, 611, 284, 285, 25, 117, 118, 119, 120, 121, 122, 15, 612, 613, 614, 24, 615, 58, 616, 617, 618, 619, 56, 620, 517, 393, 394, 19, 395, 44, 45, 206, 207, 208, 209, 210, 211, 212, 213, 214, 215, 216, 1306, 1307, 1308, 1309, 1310, 1311, 1312, 1313, 1336, 1337, 1338, 1333, 1334] (by decide +kernel) (by decide +kernel)) (goodIn_sub (fun _ h => List.mem_append_left _ (List.mem_append_left _ (List.mem_append_left _ (List.mem_append_left _ (List.mem_append_left _ (List.mem_append_left _ (List.mem_append_right _ h))))))) (by decide +kernel))) (goodIn_sub (fun _ h => List.mem_append_left _ (List.mem_append_left _ (List.mem_append_left _ (List.mem_append_left _ (List.mem_append_left _ (List.mem_append_left _ (List.mem_append_left _ (List.mem_append_left _ (List.mem_append_right _ h))))))))) (by decide +kernel))
set_option maxRecDepth 20000 in
theorem gL_law_L_take : GoodIn wsL_law (va_wsS RL 231 yL_take wsL_take) := goodIn_app (goodIn_of _ (by decide +kernel)) ggL_law_L_take
set_option maxRecDepth 20000 in
theorem ggL_law_X8_take : GoodIn wsL_law wsX8_take := goodIn_r _ [624, 107, 99, 97, 147, 148, 5, 149, 150, 151, 152, 156, 157, 158, 159, 160, 354, 355, 356, 221, 222, 223, 1314, 1315, 1316, 1317, 1318, 1319, 1320, 1321, 1322, 1323, 1324, 1325, 1326, 1327, 1328, 1329, 1330, 1331, 1332] (by decide +kernel) (by decide +kernel)
set_option maxRecDepth 20000 in
theorem gL_law_X8_take : GoodIn wsL_law (wsV RL 233 RX8 yX8_take wsX8_take) := goodIn_app (goodIn_of _ (by decide +kernel)) ggL_law_X8_take
set_option maxRecDepth 20000 in
theorem ggL_law_L_spread : GoodIn wsL_law wsL_spread := goodIn_ca (goodIn_ca (goodIn_r _ [627, 466, 628, 629, 630, 2, 631, 26, 25, 270, 271, 272, 126, 127, 632, 633, 634, 24, 635, 58, 56, 517, 393, 394, 19, 395, 44, 45, 636, 637, 638, 639, 57, 640, 641, 642, 643, 644, 341, 342, 343, 344, 345, 645, 509, 510, 511, 512, 504, 505, 506, 507, 456, 457, 458, 513, 514, 515, 516, 561, 562, 563, 564, 1306, 1307, 1308, 1309, 1310, 1311, 1312, 1313, 1336, 1337, 1338, 1333, 1334] (by decide +kernel) (by decide +kernel)) (goodIn_sub (fun _ h => List.mem_append_left _ (List.mem_append_left _ (List.mem_append_left _ (List.mem_append_left _ (List.mem_append_left _ (List.mem_append_left _ (List.mem_append_left _ (List.mem_append_right _ h)))))))) (by decide +kernel))) (goodIn_sub (fun _ h => List.mem_append_left _ (List.mem_append_left _ (List.mem_append_left _ (List.mem_append_left _ (List.mem_append_left _ (List.mem_append_right _ h)))))) (by decide +kernel))
set_option maxRecDepth 20000 in
theorem gL_law_L_spread : GoodIn wsL_law (va_wsS RL 234 yL_spread wsL_spread) := goodIn_app (goodIn_of _ (by decide +kernel)) ggL_law_L_spread
set_option maxRecDepth 20000 in
theorem ggL_law_X8_spread : GoodIn wsL_law wsX8_spread := goodIn_r _ [649, 650, 107, 100, 99, 150, 151, 5, 152, 156, 157, 158, 159, 160, 651, 652, 653, 654, 98, 354, 355, 356, 260, 261, 262, 522, 523, 524, 357, 358, 359, 360, 361, 362, 525, 526, 527, 528, 529, 530, 1314, 1315, 1316, 1317, 1318, 1319, 1320, 1321, 1322, 1323, 1324, 1325, 1326, 1327, 1328, 1329, 1330, 1331, 1332] (by decide +kernel) (by decide +kernel)
set_option maxRecDepth 20000 in
theorem gL_law_X8_spread : GoodIn wsL_law (wsV RL 236 RX8 yX8_spread wsX8_spread) := goodIn_app (goodIn_of _ (by decide +kernel)) ggL_law_X8_spread
set_option maxRecDepth 20000 in
theorem ggL_law_L_isClosed : GoodIn wsL_law wsL_isClosed := goodIn_ca (goodIn_ca (goodIn_r _ [657, 466, 658, 659, 660, 2, 661, 25, 270, 271, 272, 126, 127, 662, 663, 664, 24, 665, 58, 57, 640, 641, 642, 643, 56, 517, 393, 394, 19, 395, 44, 45, 644, 341, 342, 343, 344, 345, 512, 504, 505, 506, 507, 456, 457, 458, 1306, 1307, 1308, 1309, 1310, 1311, 1312, 1313, 1336, 1337, 1338, 1333, 1334] (by decide +kernel) (by decide +kernel)) (goodIn_sub (fun _ h => List.mem_append_left _ (List.mem_append_left _ (List.mem_append_left _ (List.mem_append_left _ (List.mem_append_left _ (List.mem_append_left _ (List.mem_append_left _ (List.mem_append_right _ h)))))))) (by decide +kernel))) (goodIn_sub (fun _ h => List.mem_append_left _ (List.mem_append_left _ (List.mem_append_left _ (List.mem_append_left _ (List.mem_append_left _ (List.mem_append_right _ h)))))) (by decide +kernel))
set_option maxRecDepth 20000 in
theorem gL_law_L_isClosed : GoodIn wsL_law (va_wsS RL 237 yL_isClosed wsL_isClosed) := goodIn_app (goodIn_of _ (by decide +kernel)) ggL_law_L_isClosed
set_option maxRecDepth 20000 in
theorem ggL_law_X8_isClosed : GoodIn wsL_law wsX8_isClosed := goodIn_r _ [669, 650, 107, 150, 151, 5, 152, 156, 157, 158, 159, 160, 651, 652, 653, 654, 99, 100, 98, 354, 355, 356, 260, 261, 262, 522, 523, 524, 357, 358, 359, 360, 361, 362, 525, 526, 527, 528, 529, 530, 1314, 1315, 1316, 1317, 1318, 1319, 1320, 1321, 1322, 1323, 1324, 1325, 1326, 1327, 1328, 1329, 1330, 1331, 1332] (by decide +kernel) (by decide +kernel)
set_option maxRecDepth 20000 in
theorem gL_law_X8_isClosed : GoodIn wsL_law (wsV RL 239 RX8 yX8_isClosed wsX8_isClosed) := goodIn_app (goodIn_of _ (by decide +kernel)) ggL_law_X8_isClosed
set_option maxRecDepth 20000 in
theorem ggL_law_X7_isChain : GoodIn wsL_law wsX7_isChain := goodIn_ca (goodIn_r _ [673, 25, 674, 675, 676, 24, 677, 58, 56, 678, 423, 424, 19, 425, 344, 127, 44, 345, 45, 1306, 1307, 1308, 1309, 1310, 1311, 1312, 1313, 1336, 1337, 1338, 1333, 1334] (by decide +kernel) (by decide +kernel)) (goodIn_sub (fun _ h => List.mem_append_left _ (List.mem_append_left _ (List.mem_append_left _ (List.mem_append_left _ (List.mem_append_left _ (List.mem_append_right _ h)))))) (by decide +kernel))
set_option maxRecDepth 20000 in
theorem gL_law_X7_isChain : GoodIn wsL_law (wsV RL 240 RX7 yX7_isChain wsX7_isChain) := goodIn_app (goodIn_of _ (by decide +kernel)) ggL_law_X7_isChain
set_option maxRecDepth 20000 in
theorem ggL_law_X8_isChain : GoodIn wsL_law wsX8_isChain := goodIn_r _ [682, 160, 107, 99, 430, 431, 5, 432, 1314, 1315, 1316, 1317, 1318, 1319, 1320, 1321, 1322, 1323, 1324, 1325, 1326, 1327, 1328, 1329, 1330, 1331, 1332] (by decide +kernel) (by decide +kernel)
set_option maxRecDepth 20000 in
theorem gL_law_X8_isChain : GoodIn wsL_law (wsV RL 244 RX8 yX8_isChain wsX8_isChain) := goodIn_app (goodIn_of _ (by decide +kernel)) ggL_law_X8_isChain
set_option maxRecDepth 20000 in
theorem ggL_law_X7_primes : GoodIn wsL_law wsX7_primes := goodIn_ca (goodIn_r _ [686, 25, 687, 688, 689, 24, 690, 58, 56, 691, 692, 693, 694, 695, 696, 697, 698, 678, 423, 424, 19, 425, 344, 127, 44, 345, 45, 699, 700, 701, 702, 57, 703, 253, 254, 255, 644, 341, 342, 343, 507, 456, 457, 458, 704, 705, 706, 707, 708, 709, 710, 1306, 1307, 1308, 1309, 1310, 1311, 1312, 1313, 1336, 1337, 1338, 1333, 1334] (by decide +kernel) (by decide +kernel)) (goodIn_sub (fun _ h => List.mem_append_left _ (List.mem_append_left _ (List.mem_append_left _ (List.mem_append_left _ (List.mem_append_left _ (List.mem_append_right _ h)))))) (by decide +kernel))
set_option maxRecDepth 20000 in
theorem gL_law_X7_primes : GoodIn wsL_law (wsV RL 245 RX7 yX7_primes wsX7_primes) := goodIn_app (goodIn_of _ (by decide +kernel)) ggL_law_X7_primes
set_option maxRecDepth 20000 in
theorem ggL_law_X8_primes : GoodIn wsL_law wsX8_primes := goodIn_r _ [714, 160, 107, 715, 716, 717, 5, 718, 99, 101, 719, 720, 721, 357, 358, 359, 360, 361, 362, 722, 260, 261, 262, 430, 431, 432, 1314, 1315, 1316, 1317, 1318, 1319, 1320, 1321, 1322, 1323, 1324, 1325, 1326, 1327, 1328, 1329, 1330, 1331, 1332] (by decide +kernel) (by decide +kernel)
set_option maxRecDepth 20000 in
theorem gL_law_X8_primes : GoodIn wsL_law (wsV RL 248 RX8 yX8_primes wsX8_primes) := goodIn_app (goodIn_of _ (by decide +kernel)) ggL_law_X8_primes
set_option maxRecDepth 20000 in
theorem ggL_law_L_primesWithin : GoodIn wsL_law wsL_primesWithin := goodIn_ca (goodIn_ca (goodIn_r _ [725, 112, 726, 727, 728, 2, 729, 25, 117, 118, 119, 120, 121, 122, 15, 687, 688, 689, 24, 690, 58, 56, 691, 692, 693, 694, 695, 696, 697, 698, 678, 423, 424, 19, 425, 344, 127, 44, 345, 45, 699, 700, 701, 702, 57, 703, 253, 254, 255, 644, 341, 342, 343, 507, 456, 457, 458, 730, 704, 705, 706, 707, 708, 709, 710, 1306, 1307, 1308, 1309, 1310, 1311, 1312, 1313, 1336, 1337, 1338, 1333, 1334] (by decide +kernel) (by decide +kernel)) (goodIn_sub (fun _ h => List.mem_append_left _ (List.mem_append_left _ (List.mem_append_left _ (List.mem_append_left _ (List.mem_append_left _ (List.mem_append_left _ (List.mem_append_left _ (List.mem_append_left _ (List.mem_append_right _ h))))))))) (by decide +kernel))) (goodIn_sub (fun _ h => List.mem_append_left _ (List.mem_append_left _ (List.mem_append_left _ (List.mem_append_left _ (List.mem_append_left _ (List.mem_append_right _ h)))))) (by decide +kernel))
set_option maxRecDepth 20000 in
theorem gL_law_L_primesWithin : GoodIn wsL_law (va_wsS RL 249 yL_primesWithin wsL_primesWithin) := goodIn_app (goodIn_of _ (by decide +kernel)) ggL_law_L_primesWithin
set_option maxRecDepth 20000 in
theorem ggL_law_X8_primesWithin : GoodIn wsL_law wsX8_primesWithin := goodIn_r _ [734, 97, 147, 148, 5, 149, 150, 151, 152, 156, 157, 158, 159, 160, 735, 736, 737, 738, 107, 99, 430, 431, 432, 715, 716, 717, 718, 101, 719, 720, 721, 357, 358, 359, 360, 361, 362, 722, 260, 261, 262, 1314, 1315, 1316, 1317, 1318, 1319, 1320, 1321, 1322, 1323, 1324, 1325, 1326, 1327, 1328, 1329, 1330, 1331, 1332] (by decide +kernel) (by decide +kernel)
set_option maxRecDepth 20000 in
theorem gL_law_X8_primesWithin : GoodIn wsL_law (wsV RL 251 RX8 yX8_primesWithin wsX8_primesWithin) := goodIn_app (goodIn_of _ (by decide +kernel)) ggL_law_X8_primesWithin
set_option maxRecDepth 20000 in
theorem ggL_law_L_type : GoodIn wsL_law wsL_type := goodIn_ca (goodIn_r _ [741, 742, 743, 744, 745, 2, 746, 501, 502, 31, 747, 748, 749, 30, 750, 751, 66, 752, 753, 754, 755, 65, 756, 757, 758, 759, 1306, 1307, 1308, 1309, 1310, 1311, 1312, 1313, 1339, 1340] (by decide +kernel) (by decide +kernel)) (goodIn_sub (fun _ h => List.mem_append_left _ (List.mem_append_left _ (List.mem_append_left _ (List.mem_append_left _ (List.mem_append_right _ h))))) (by decide +kernel))
set_option maxRecDepth 20000 in
theorem gL_law_L_type : GoodIn wsL_law (va_wsS RL 254 yL_type wsL_type) := goodIn_app (goodIn_of _ (by decide +kernel)) ggL_law_L_type
set_option maxRecDepth 20000 in
theorem ggL_law_X8_type : GoodIn wsL_law wsX8_type := goodIn_r _ [763, 764, 765, 102, 156, 157, 158, 5, 159, 160, 1314, 1315, 1316, 1317, 1318, 1319, 1320, 1321, 1322, 1323, 1324, 1325, 1326, 1327, 1328, 1329, 1330, 1331, 1332] (by decide +kernel) (by decide +kernel)
set_option maxRecDepth 20000 in
theorem gL_law_X8_type : GoodIn wsL_law (wsV RL 257 RX8 yX8_type wsX8_type) := goodIn_app (goodIn_of _ (by decide +kernel)) ggL_law_X8_type
set_option maxRecDepth 20000 in
theorem ggL_law_X7_clearText : GoodIn wsL_law wsX7_clearText := goodIn_r _ [769, 31, 756, 757, 758, 30, 759, 66, 770, 771, 772, 773, 1306, 1307, 1308, 1309, 1310, 1311, 1312, 1313, 1339, 1340] (by decide +kernel) (by decide +kernel)
set_option maxRecDepth 20000 in
theorem gL_law_X7_clearText : GoodIn wsL_law (wsV RL 258 RX7 yX7_clearText wsX7_clearText) := goodIn_app (goodIn_of _ (by decide +kernel)) ggL_law_X7_clearText
set_option maxRecDepth 20000 in
theorem ggL_law_X8_clearText : GoodIn wsL_law wsX8_clearText := goodIn_r _ [777, 160, 765, 1314, 1315, 1316, 1317, 1318, 1319, 1320, 1321, 1322, 1323, 1324, 1325, 1326, 1327, 1328, 1329, 1330, 1331, 1332] (by decide +kernel) (by decide +kernel)
set_option maxRecDepth 20000 in
theorem gL_law_X8_clearText : GoodIn wsL_law (wsV RL 261 RX8 yX8_clearText wsX8_clearText) := goodIn_app (goodIn_of _ (by decide +kernel)) ggL_law_X8_clearText
set_option maxRecDepth 20000 in
theorem ggL_law_X7_textLength : GoodIn wsL_law wsX7_textLength := goodIn_r _ [781, 31, 756, 757, 758, 30, 759, 66, 1306, 1307, 1308, 1309, 1310, 1311, 1312, 1313, 1339, 1340] (by decide +kernel) (by decide +kernel)
set_option maxRecDepth 20000 in
theorem gL_law_X7_textLength : GoodIn wsL_law (wsV RL 262 RX7 yX7_textLength wsX7_textLength) := goodIn_app (goodIn_of _ (by decide +kernel)) ggL_law_X7_textLength
set_option maxRecDepth 20000 in
theorem ggL_law_X8_textLength : GoodIn wsL_law wsX8_textLength := goodIn_r _ [785, 160, 765, 1314, 1315, 1316, 1317, 1318, 1319, 1320, 1321, 1322, 1323, 1324, 1325, 1326, 1327, 1328, 1329, 1330, 1331, 1332] (by decide +kernel) (by decide +kernel)
set_option maxRecDepth 20000 in
theorem gL_law_X8_textLength : GoodIn wsL_law (wsV RL 265 RX8 yX8_textLength wsX8_textLength) := goodIn_app (goodIn_of _ (by decide +kernel)) ggL_law_X8_textLength
