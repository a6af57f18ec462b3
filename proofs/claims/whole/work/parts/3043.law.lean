theorem dL_law_1222 : decode cL_law 1222 = .ok (.invokestatic 188, 3) := by decide +kernel
theorem dL_law_1225 : decode cL_law 1225 = .ok (.istore 5, 2) := by decide +kernel
theorem dL_law_1227 : decode cL_law 1227 = .ok (.aload_n 2, 1) := by decide +kernel
theorem dL_law_1228 : decode cL_law 1228 = .ok (.aload_n 0, 1) := by decide +kernel
theorem dL_law_1229 : decode cL_law 1229 = .ok (.iload 4, 2) := by decide +kernel
theorem dL_law_1231 : decode cL_law 1231 = .ok (.iconst 1, 1) := by decide +kernel
theorem dL_law_1232 : decode cL_law 1232 = .ok (.iadd, 1) := by decide +kernel
theorem dL_law_1233 : decode cL_law 1233 = .ok (.iaload, 1) := by decide +kernel
theorem dL_law_1234 : decode cL_law 1234 = .ok (.aload_n 0, 1) := by decide +kernel
theorem dL_law_1235 : decode cL_law 1235 = .ok (.iload 4, 2) := by decide +kernel
theorem dL_law_1237 : decode cL_law 1237 = .ok (.iconst 2, 1) := by decide +kernel
theorem dL_law_1238 : decode cL_law 1238 = .ok (.iadd, 1) := by decide +kernel
theorem dL_law_1239 : decode cL_law 1239 = .ok (.iaload, 1) := by decide +kernel
theorem dL_law_1240 : decode cL_law 1240 = .ok (.aload_n 0, 1) := by decide +kernel
theorem dL_law_1241 : decode cL_law 1241 = .ok (.iload 4, 2) := by decide +kernel
theorem dL_law_1243 : decode cL_law 1243 = .ok (.iconst 3, 1) := by decide +kernel
theorem dL_law_1244 : decode cL_law 1244 = .ok (.iadd, 1) := by decide +kernel
theorem dL_law_1245 : decode cL_law 1245 = .ok (.iaload, 1) := by decide +kernel
theorem dL_law_1246 : decode cL_law 1246 = .ok (.invokevirtual 191, 3) := by decide +kernel
theorem dL_law_1249 : decode cL_law 1249 = .ok (.istore 6, 2) := by decide +kernel
theorem dL_law_1251 : decode cL_law 1251 = .ok (.aload_n 2, 1) := by decide +kernel
theorem dL_law_1252 : decode cL_law 1252 = .ok (.invokevirtual 144, 3) := by decide +kernel
theorem dL_law_1255 : decode cL_law 1255 = .ok (.iload 5, 2) := by decide +kernel
theorem dL_law_1257 : decode cL_law 1257 = .ok (.if_icmp .eq 5, 3) := by decide +kernel
theorem dL_law_1260 : decode cL_law 1260 = .ok (.iconst 0, 1) := by decide +kernel
theorem dL_law_1261 : decode cL_law 1261 = .ok (.ireturn, 1) := by decide +kernel
theorem dL_law_1262 : decode cL_law 1262 = .ok (.iload 5, 2) := by decide +kernel
theorem dL_law_1264 : decode cL_law 1264 = .ok (.ifCond .ne 15, 3) := by decide +kernel
theorem dL_law_1267 : decode cL_law 1267 = .ok (.aload_n 3, 1) := by decide +kernel
theorem dL_law_1268 : decode cL_law 1268 = .ok (.iconst 0, 1) := by decide +kernel
theorem dL_law_1269 : decode cL_law 1269 = .ok (.laload, 1) := by decide +kernel
theorem dL_law_1270 : decode cL_law 1270 = .ok (.iload 6, 2) := by decide +kernel
theorem dL_law_1272 : decode cL_law 1272 = .ok (.i2l, 1) := by decide +kernel
theorem dL_law_1273 : decode cL_law 1273 = .ok (.lcmp, 1) := by decide +kernel
theorem dL_law_1274 : decode cL_law 1274 = .ok (.ifCond .eq 5, 3) := by decide +kernel
theorem dL_law_1277 : decode cL_law 1277 = .ok (.iconst 0, 1) := by decide +kernel
theorem dL_law_1278 : decode cL_law 1278 = .ok (.ireturn, 1) := by decide +kernel
theorem dL_law_1279 : decode cL_law 1279 = .ok (.goto 1627, 3) := by decide +kernel
theorem dL_law_1282 : decode cL_law 1282 = .ok (.aload_n 1, 1) := by decide +kernel
theorem dL_law_1283 : decode cL_law 1283 = .ok (.aload_n 0, 1) := by decide +kernel
theorem dL_law_1284 : decode cL_law 1284 = .ok (.iload 4, 2) := by decide +kernel
theorem dL_law_1286 : decode cL_law 1286 = .ok (.iconst 1, 1) := by decide +kernel
theorem dL_law_1287 : decode cL_law 1287 = .ok (.iadd, 1) := by decide +kernel
theorem dL_law_1288 : decode cL_law 1288 = .ok (.iaload, 1) := by decide +kernel
theorem dL_law_1289 : decode cL_law 1289 = .ok (.aload_n 0, 1) := by decide +kernel
theorem dL_law_1290 : decode cL_law 1290 = .ok (.iload 4, 2) := by decide +kernel
theorem dL_law_1292 : decode cL_law 1292 = .ok (.iconst 2, 1) := by decide +kernel
theorem dL_law_1293 : decode cL_law 1293 = .ok (.iadd, 1) := by decide +kernel
theorem dL_law_1294 : decode cL_law 1294 = .ok (.iaload, 1) := by decide +kernel
theorem dL_law_1295 : decode cL_law 1295 = .ok (.aload_n 3, 1) := by decide +kernel
theorem dL_law_1296 : decode cL_law 1296 = .ok (.invokestatic 192, 3) := by decide +kernel
theorem dL_law_1299 : decode cL_law 1299 = .ok (.istore 5, 2) := by decide +kernel
theorem dL_law_1301 : decode cL_law 1301 = .ok (.aload_n 2, 1) := by decide +kernel
theorem dL_law_1302 : decode cL_law 1302 = .ok (.aload_n 0, 1) := by decide +kernel
theorem dL_law_1303 : decode cL_law 1303 = .ok (.iload 4, 2) := by decide +kernel
theorem dL_law_1305 : decode cL_law 1305 = .ok (.iconst 1, 1) := by decide +kernel
theorem dL_law_1306 : decode cL_law 1306 = .ok (.iadd, 1) := by decide +kernel
theorem dL_law_1307 : decode cL_law 1307 = .ok (.iaload, 1) := by decide +kernel
theorem dL_law_1308 : decode cL_law 1308 = .ok (.aload_n 0, 1) := by decide +kernel
theorem dL_law_1309 : decode cL_law 1309 = .ok (.iload 4, 2) := by decide +kernel
theorem dL_law_1311 : decode cL_law 1311 = .ok (.iconst 2, 1) := by decide +kernel
theorem dL_law_1312 : decode cL_law 1312 = .ok (.iadd, 1) := by decide +kernel
theorem dL_law_1313 : decode cL_law 1313 = .ok (.iaload, 1) := by decide +kernel
theorem dL_law_1314 : decode cL_law 1314 = .ok (.invokevirtual 194, 3) := by decide +kernel
theorem dL_law_1317 : decode cL_law 1317 = .ok (.istore 6, 2) := by decide +kernel
theorem dL_law_1319 : decode cL_law 1319 = .ok (.aload_n 2, 1) := by decide +kernel
theorem dL_law_1320 : decode cL_law 1320 = .ok (.invokevirtual 144, 3) := by decide +kernel
theorem dL_law_1323 : decode cL_law 1323 = .ok (.iload 5, 2) := by decide +kernel
theorem dL_law_1325 : decode cL_law 1325 = .ok (.if_icmp .eq 5, 3) := by decide +kernel
theorem dL_law_1328 : decode cL_law 1328 = .ok (.iconst 0, 1) := by decide +kernel
theorem dL_law_1329 : decode cL_law 1329 = .ok (.ireturn, 1) := by decide +kernel
theorem dL_law_1330 : decode cL_law 1330 = .ok (.iload 5, 2) := by decide +kernel
theorem dL_law_1332 : decode cL_law 1332 = .ok (.ifCond .ne 22, 3) := by decide +kernel
theorem dL_law_1335 : decode cL_law 1335 = .ok (.aload_n 3, 1) := by decide +kernel
theorem dL_law_1336 : decode cL_law 1336 = .ok (.iconst 0, 1) := by decide +kernel
theorem dL_law_1337 : decode cL_law 1337 = .ok (.laload, 1) := by decide +kernel
theorem dL_law_1338 : decode cL_law 1338 = .ok (.iload 6, 2) := by decide +kernel
theorem dL_law_1340 : decode cL_law 1340 = .ok (.ifCond .eq 7, 3) := by decide +kernel
theorem dL_law_1343 : decode cL_law 1343 = .ok (.lconst 1, 1) := by decide +kernel
theorem dL_law_1344 : decode cL_law 1344 = .ok (.goto 4, 3) := by decide +kernel
theorem dL_law_1347 : decode cL_law 1347 = .ok (.lconst 0, 1) := by decide +kernel
theorem dL_law_1348 : decode cL_law 1348 = .ok (.lcmp, 1) := by decide +kernel
theorem dL_law_1349 : decode cL_law 1349 = .ok (.ifCond .eq 5, 3) := by decide +kernel
theorem dL_law_1352 : decode cL_law 1352 = .ok (.iconst 0, 1) := by decide +kernel
theorem dL_law_1353 : decode cL_law 1353 = .ok (.ireturn, 1) := by decide +kernel
theorem dL_law_1354 : decode cL_law 1354 = .ok (.goto 1552, 3) := by decide +kernel
theorem dL_law_1357 : decode cL_law 1357 = .ok (.aload_n 1, 1) := by decide +kernel
theorem dL_law_1358 : decode cL_law 1358 = .ok (.aload_n 0, 1) := by decide +kernel
theorem dL_law_1359 : decode cL_law 1359 = .ok (.iload 4, 2) := by decide +kernel
theorem dL_law_1361 : decode cL_law 1361 = .ok (.iconst 1, 1) := by decide +kernel
theorem dL_law_1362 : decode cL_law 1362 = .ok (.iadd, 1) := by decide +kernel
theorem dL_law_1363 : decode cL_law 1363 = .ok (.iaload, 1) := by decide +kernel
theorem dL_law_1364 : decode cL_law 1364 = .ok (.aload_n 0, 1) := by decide +kernel
theorem dL_law_1365 : decode cL_law 1365 = .ok (.iload 4, 2) := by decide +kernel
theorem dL_law_1367 : decode cL_law 1367 = .ok (.iconst 2, 1) := by decide +kernel
theorem dL_law_1368 : decode cL_law 1368 = .ok (.iadd, 1) := by decide +kernel
theorem dL_law_1369 : decode cL_law 1369 = .ok (.iaload, 1) := by decide +kernel
theorem dL_law_1370 : decode cL_law 1370 = .ok (.aload_n 3, 1) := by decide +kernel
theorem dL_law_1371 : decode cL_law 1371 = .ok (.invokestatic 195, 3) := by decide +kernel
theorem dL_law_1374 : decode cL_law 1374 = .ok (.istore 5, 2) := by decide +kernel
theorem dL_law_1376 : decode cL_law 1376 = .ok (.aload_n 2, 1) := by decide +kernel
theorem dL_law_1377 : decode cL_law 1377 = .ok (.aload_n 0, 1) := by decide +kernel
theorem dL_law_1378 : decode cL_law 1378 = .ok (.iload 4, 2) := by decide +kernel
theorem dL_law_1380 : decode cL_law 1380 = .ok (.iconst 1, 1) := by decide +kernel
theorem dL_law_1381 : decode cL_law 1381 = .ok (.iadd, 1) := by decide +kernel
theorem dL_law_1382 : decode cL_law 1382 = .ok (.iaload, 1) := by decide +kernel
theorem dL_law_1383 : decode cL_law 1383 = .ok (.aload_n 0, 1) := by decide +kernel
theorem dL_law_1384 : decode cL_law 1384 = .ok (.iload 4, 2) := by decide +kernel
theorem dL_law_1386 : decode cL_law 1386 = .ok (.iconst 2, 1) := by decide +kernel
theorem dL_law_1387 : decode cL_law 1387 = .ok (.iadd, 1) := by decide +kernel
theorem dL_law_1388 : decode cL_law 1388 = .ok (.iaload, 1) := by decide +kernel
theorem dL_law_1389 : decode cL_law 1389 = .ok (.invokevirtual 197, 3) := by decide +kernel
theorem dL_law_1392 : decode cL_law 1392 = .ok (.istore 6, 2) := by decide +kernel
theorem dL_law_1394 : decode cL_law 1394 = .ok (.aload_n 2, 1) := by decide +kernel
theorem dL_law_1395 : decode cL_law 1395 = .ok (.invokevirtual 144, 3) := by decide +kernel
theorem dL_law_1398 : decode cL_law 1398 = .ok (.iload 5, 2) := by decide +kernel
theorem dL_law_1400 : decode cL_law 1400 = .ok (.if_icmp .eq 5, 3) := by decide +kernel
theorem dL_law_1403 : decode cL_law 1403 = .ok (.iconst 0, 1) := by decide +kernel
theorem dL_law_1404 : decode cL_law 1404 = .ok (.ireturn, 1) := by decide +kernel
theorem dL_law_1405 : decode cL_law 1405 = .ok (.iload 5, 2) := by decide +kernel
theorem dL_law_1407 : decode cL_law 1407 = .ok (.ifCond .ne 22, 3) := by decide +kernel
theorem dL_law_1410 : decode cL_law 1410 = .ok (.aload_n 3, 1) := by decide +kernel
theorem dL_law_1411 : decode cL_law 1411 = .ok (.iconst 0, 1) := by decide +kernel
theorem dL_law_1412 : decode cL_law 1412 = .ok (.laload, 1) := by decide +kernel
theorem dL_law_1413 : decode cL_law 1413 = .ok (.iload 6, 2) := by decide +kernel
theorem dL_law_1415 : decode cL_law 1415 = .ok (.ifCond .eq 7, 3) := by decide +kernel
theorem dL_law_1418 : decode cL_law 1418 = .ok (.lconst 1, 1) := by decide +kernel
theorem dL_law_1419 : decode cL_law 1419 = .ok (.goto 4, 3) := by decide +kernel
theorem dL_law_1422 : decode cL_law 1422 = .ok (.lconst 0, 1) := by decide +kernel
theorem dL_law_1423 : decode cL_law 1423 = .ok (.lcmp, 1) := by decide +kernel
theorem dL_law_1424 : decode cL_law 1424 = .ok (.ifCond .eq 5, 3) := by decide +kernel
theorem dL_law_1427 : decode cL_law 1427 = .ok (.iconst 0, 1) := by decide +kernel
theorem dL_law_1428 : decode cL_law 1428 = .ok (.ireturn, 1) := by decide +kernel
theorem dL_law_1429 : decode cL_law 1429 = .ok (.goto 1477, 3) := by decide +kernel
theorem dL_law_1432 : decode cL_law 1432 = .ok (.aload_n 1, 1) := by decide +kernel
theorem dL_law_1433 : decode cL_law 1433 = .ok (.aload_n 0, 1) := by decide +kernel
theorem dL_law_1434 : decode cL_law 1434 = .ok (.iload 4, 2) := by decide +kernel
theorem dL_law_1436 : decode cL_law 1436 = .ok (.iconst 1, 1) := by decide +kernel
theorem dL_law_1437 : decode cL_law 1437 = .ok (.iadd, 1) := by decide +kernel
theorem dL_law_1438 : decode cL_law 1438 = .ok (.iaload, 1) := by decide +kernel
theorem dL_law_1439 : decode cL_law 1439 = .ok (.aload_n 0, 1) := by decide +kernel
theorem dL_law_1440 : decode cL_law 1440 = .ok (.iload 4, 2) := by decide +kernel
theorem dL_law_1442 : decode cL_law 1442 = .ok (.iconst 2, 1) := by decide +kernel
theorem dL_law_1443 : decode cL_law 1443 = .ok (.iadd, 1) := by decide +kernel
theorem dL_law_1444 : decode cL_law 1444 = .ok (.iaload, 1) := by decide +kernel
theorem dL_law_1445 : decode cL_law 1445 = .ok (.aload_n 3, 1) := by decide +kernel
theorem dL_law_1446 : decode cL_law 1446 = .ok (.invokestatic 198, 3) := by decide +kernel
theorem dL_law_1449 : decode cL_law 1449 = .ok (.istore 5, 2) := by decide +kernel
theorem dL_law_1451 : decode cL_law 1451 = .ok (.aload_n 2, 1) := by decide +kernel
theorem dL_law_1452 : decode cL_law 1452 = .ok (.aload_n 0, 1) := by decide +kernel
theorem dL_law_1453 : decode cL_law 1453 = .ok (.iload 4, 2) := by decide +kernel
theorem dL_law_1455 : decode cL_law 1455 = .ok (.iconst 1, 1) := by decide +kernel
theorem dL_law_1456 : decode cL_law 1456 = .ok (.iadd, 1) := by decide +kernel
theorem dL_law_1457 : decode cL_law 1457 = .ok (.iaload, 1) := by decide +kernel
theorem dL_law_1458 : decode cL_law 1458 = .ok (.aload_n 0, 1) := by decide +kernel
theorem dL_law_1459 : decode cL_law 1459 = .ok (.iload 4, 2) := by decide +kernel
theorem dL_law_1461 : decode cL_law 1461 = .ok (.iconst 2, 1) := by decide +kernel
theorem dL_law_1462 : decode cL_law 1462 = .ok (.iadd, 1) := by decide +kernel
theorem dL_law_1463 : decode cL_law 1463 = .ok (.iaload, 1) := by decide +kernel
theorem dL_law_1464 : decode cL_law 1464 = .ok (.invokevirtual 200, 3) := by decide +kernel
theorem dL_law_1467 : decode cL_law 1467 = .ok (.istore 6, 2) := by decide +kernel
theorem dL_law_1469 : decode cL_law 1469 = .ok (.aload_n 2, 1) := by decide +kernel
theorem dL_law_1470 : decode cL_law 1470 = .ok (.invokevirtual 144, 3) := by decide +kernel
theorem dL_law_1473 : decode cL_law 1473 = .ok (.iload 5, 2) := by decide +kernel
theorem dL_law_1475 : decode cL_law 1475 = .ok (.if_icmp .eq 5, 3) := by decide +kernel
theorem dL_law_1478 : decode cL_law 1478 = .ok (.iconst 0, 1) := by decide +kernel
theorem dL_law_1479 : decode cL_law 1479 = .ok (.ireturn, 1) := by decide +kernel
theorem dL_law_1480 : decode cL_law 1480 = .ok (.iload 5, 2) := by decide +kernel
theorem dL_law_1482 : decode cL_law 1482 = .ok (.ifCond .ne 22, 3) := by decide +kernel
theorem dL_law_1485 : decode cL_law 1485 = .ok (.aload_n 3, 1) := by decide +kernel
theorem dL_law_1486 : decode cL_law 1486 = .ok (.iconst 0, 1) := by decide +kernel
theorem dL_law_1487 : decode cL_law 1487 = .ok (.laload, 1) := by decide +kernel
theorem dL_law_1488 : decode cL_law 1488 = .ok (.iload 6, 2) := by decide +kernel
theorem dL_law_1490 : decode cL_law 1490 = .ok (.ifCond .eq 7, 3) := by decide +kernel
theorem dL_law_1493 : decode cL_law 1493 = .ok (.lconst 1, 1) := by decide +kernel
theorem dL_law_1494 : decode cL_law 1494 = .ok (.goto 4, 3) := by decide +kernel
theorem dL_law_1497 : decode cL_law 1497 = .ok (.lconst 0, 1) := by decide +kernel
theorem dL_law_1498 : decode cL_law 1498 = .ok (.lcmp, 1) := by decide +kernel
theorem dL_law_1499 : decode cL_law 1499 = .ok (.ifCond .eq 5, 3) := by decide +kernel
theorem dL_law_1502 : decode cL_law 1502 = .ok (.iconst 0, 1) := by decide +kernel
theorem dL_law_1503 : decode cL_law 1503 = .ok (.ireturn, 1) := by decide +kernel
theorem dL_law_1504 : decode cL_law 1504 = .ok (.goto 1402, 3) := by decide +kernel
theorem dL_law_1507 : decode cL_law 1507 = .ok (.aload_n 1, 1) := by decide +kernel
theorem dL_law_1508 : decode cL_law 1508 = .ok (.aload_n 0, 1) := by decide +kernel
theorem dL_law_1509 : decode cL_law 1509 = .ok (.iload 4, 2) := by decide +kernel
theorem dL_law_1511 : decode cL_law 1511 = .ok (.iconst 1, 1) := by decide +kernel
theorem dL_law_1512 : decode cL_law 1512 = .ok (.iadd, 1) := by decide +kernel
theorem dL_law_1513 : decode cL_law 1513 = .ok (.iaload, 1) := by decide +kernel
theorem dL_law_1514 : decode cL_law 1514 = .ok (.aload_n 3, 1) := by decide +kernel
theorem dL_law_1515 : decode cL_law 1515 = .ok (.invokestatic 201, 3) := by decide +kernel
theorem dL_law_1518 : decode cL_law 1518 = .ok (.istore 5, 2) := by decide +kernel
theorem dL_law_1520 : decode cL_law 1520 = .ok (.aload_n 2, 1) := by decide +kernel
theorem dL_law_1521 : decode cL_law 1521 = .ok (.aload_n 0, 1) := by decide +kernel
theorem dL_law_1522 : decode cL_law 1522 = .ok (.iload 4, 2) := by decide +kernel
theorem dL_law_1524 : decode cL_law 1524 = .ok (.iconst 1, 1) := by decide +kernel
theorem dL_law_1525 : decode cL_law 1525 = .ok (.iadd, 1) := by decide +kernel
theorem dL_law_1526 : decode cL_law 1526 = .ok (.iaload, 1) := by decide +kernel
theorem dL_law_1527 : decode cL_law 1527 = .ok (.invokevirtual 203, 3) := by decide +kernel
theorem dL_law_1530 : decode cL_law 1530 = .ok (.istore 6, 2) := by decide +kernel
theorem dL_law_1532 : decode cL_law 1532 = .ok (.aload_n 2, 1) := by decide +kernel
theorem dL_law_1533 : decode cL_law 1533 = .ok (.invokevirtual 144, 3) := by decide +kernel
theorem dL_law_1536 : decode cL_law 1536 = .ok (.iload 5, 2) := by decide +kernel
theorem dL_law_1538 : decode cL_law 1538 = .ok (.if_icmp .eq 5, 3) := by decide +kernel
theorem dL_law_1541 : decode cL_law 1541 = .ok (.iconst 0, 1) := by decide +kernel
theorem dL_law_1542 : decode cL_law 1542 = .ok (.ireturn, 1) := by decide +kernel
theorem dL_law_1543 : decode cL_law 1543 = .ok (.iload 5, 2) := by decide +kernel
theorem dL_law_1545 : decode cL_law 1545 = .ok (.ifCond .ne 15, 3) := by decide +kernel
theorem dL_law_1548 : decode cL_law 1548 = .ok (.aload_n 3, 1) := by decide +kernel
theorem dL_law_1549 : decode cL_law 1549 = .ok (.iconst 0, 1) := by decide +kernel
theorem dL_law_1550 : decode cL_law 1550 = .ok (.laload, 1) := by decide +kernel
theorem dL_law_1551 : decode cL_law 1551 = .ok (.iload 6, 2) := by decide +kernel
theorem dL_law_1553 : decode cL_law 1553 = .ok (.i2l, 1) := by decide +kernel
theorem dL_law_1554 : decode cL_law 1554 = .ok (.lcmp, 1) := by decide +kernel
theorem dL_law_1555 : decode cL_law 1555 = .ok (.ifCond .eq 5, 3) := by decide +kernel
theorem dL_law_1558 : decode cL_law 1558 = .ok (.iconst 0, 1) := by decide +kernel
theorem dL_law_1559 : decode cL_law 1559 = .ok (.ireturn, 1) := by decide +kernel
theorem dL_law_1560 : decode cL_law 1560 = .ok (.goto 1346, 3) := by decide +kernel
theorem dL_law_1563 : decode cL_law 1563 = .ok (.aload_n 1, 1) := by decide +kernel
theorem dL_law_1564 : decode cL_law 1564 = .ok (.aload_n 0, 1) := by decide +kernel
theorem dL_law_1565 : decode cL_law 1565 = .ok (.iload 4, 2) := by decide +kernel
