theorem dL_law_0 : decode cL_law 0 = .ok (.new 8, 3) := by decide +kernel
theorem dL_law_3 : decode cL_law 3 = .ok (.dup, 1) := by decide +kernel
theorem dL_law_4 : decode cL_law 4 = .ok (.invokespecial 134, 3) := by decide +kernel
theorem dL_law_7 : decode cL_law 7 = .ok (.astore_n 1, 1) := by decide +kernel
theorem dL_law_8 : decode cL_law 8 = .ok (.new 135, 3) := by decide +kernel
theorem dL_law_11 : decode cL_law 11 = .ok (.dup, 1) := by decide +kernel
theorem dL_law_12 : decode cL_law 12 = .ok (.invokespecial 137, 3) := by decide +kernel
theorem dL_law_15 : decode cL_law 15 = .ok (.astore_n 2, 1) := by decide +kernel
theorem dL_law_16 : decode cL_law 16 = .ok (.iconst 1, 1) := by decide +kernel
theorem dL_law_17 : decode cL_law 17 = .ok (.newarray .long, 2) := by decide +kernel
theorem dL_law_19 : decode cL_law 19 = .ok (.astore_n 3, 1) := by decide +kernel
theorem dL_law_20 : decode cL_law 20 = .ok (.iconst 0, 1) := by decide +kernel
theorem dL_law_21 : decode cL_law 21 = .ok (.istore 4, 2) := by decide +kernel
theorem dL_law_23 : decode cL_law 23 = .ok (.iload 4, 2) := by decide +kernel
theorem dL_law_25 : decode cL_law 25 = .ok (.aload_n 0, 1) := by decide +kernel
theorem dL_law_26 : decode cL_law 26 = .ok (.arraylength, 1) := by decide +kernel
theorem dL_law_27 : decode cL_law 27 = .ok (.iconst 5, 1) := by decide +kernel
theorem dL_law_28 : decode cL_law 28 = .ok (.isub, 1) := by decide +kernel
theorem dL_law_29 : decode cL_law 29 = .ok (.if_icmp .gt 2883, 3) := by decide +kernel
theorem dL_law_32 : decode cL_law 32 = .ok (.aload_n 0, 1) := by decide +kernel
theorem dL_law_33 : decode cL_law 33 = .ok (.iload 4, 2) := by decide +kernel
theorem dL_law_35 : decode cL_law 35 = .ok (.iaload, 1) := by decide +kernel
theorem dL_law_36 : decode cL_law 36 = .ok (.bipush 63, 2) := by decide +kernel
theorem dL_law_38 : decode cL_law 38 = .ok (.iand, 1) := by decide +kernel
theorem dL_law_39 : decode cL_law 39 = .ok (.tableswitch 2867 0 47 #[205, 280, 355, 430, 486, 542, 598, 690, 758, 814, 870, 945, 1020, 1095, 1163, 1243, 1318, 1393, 1468, 1524, 1592, 1655, 1718, 1781, 1794, 1807, 1820, 1876, 1944, 2000, 2063, 2076, 2089, 2145, 2233, 2246, 2259, 2315, 2328, 2341, 2385, 2460, 2547, 2615, 2690, 2770, 2783, 2824], 205) := by decide +kernel
theorem dL_law_244 : decode cL_law 244 = .ok (.aload_n 1, 1) := by decide +kernel
theorem dL_law_245 : decode cL_law 245 = .ok (.aload_n 0, 1) := by decide +kernel
theorem dL_law_246 : decode cL_law 246 = .ok (.iload 4, 2) := by decide +kernel
theorem dL_law_248 : decode cL_law 248 = .ok (.iconst 1, 1) := by decide +kernel
theorem dL_law_249 : decode cL_law 249 = .ok (.iadd, 1) := by decide +kernel
theorem dL_law_250 : decode cL_law 250 = .ok (.iaload, 1) := by decide +kernel
theorem dL_law_251 : decode cL_law 251 = .ok (.aload_n 0, 1) := by decide +kernel
theorem dL_law_252 : decode cL_law 252 = .ok (.iload 4, 2) := by decide +kernel
theorem dL_law_254 : decode cL_law 254 = .ok (.iconst 2, 1) := by decide +kernel
theorem dL_law_255 : decode cL_law 255 = .ok (.iadd, 1) := by decide +kernel
theorem dL_law_256 : decode cL_law 256 = .ok (.iaload, 1) := by decide +kernel
theorem dL_law_257 : decode cL_law 257 = .ok (.aload_n 3, 1) := by decide +kernel
theorem dL_law_258 : decode cL_law 258 = .ok (.invokestatic 138, 3) := by decide +kernel
theorem dL_law_261 : decode cL_law 261 = .ok (.istore 5, 2) := by decide +kernel
theorem dL_law_263 : decode cL_law 263 = .ok (.aload_n 2, 1) := by decide +kernel
theorem dL_law_264 : decode cL_law 264 = .ok (.aload_n 0, 1) := by decide +kernel
theorem dL_law_265 : decode cL_law 265 = .ok (.iload 4, 2) := by decide +kernel
theorem dL_law_267 : decode cL_law 267 = .ok (.iconst 1, 1) := by decide +kernel
theorem dL_law_268 : decode cL_law 268 = .ok (.iadd, 1) := by decide +kernel
theorem dL_law_269 : decode cL_law 269 = .ok (.iaload, 1) := by decide +kernel
theorem dL_law_270 : decode cL_law 270 = .ok (.aload_n 0, 1) := by decide +kernel
theorem dL_law_271 : decode cL_law 271 = .ok (.iload 4, 2) := by decide +kernel
theorem dL_law_273 : decode cL_law 273 = .ok (.iconst 2, 1) := by decide +kernel
theorem dL_law_274 : decode cL_law 274 = .ok (.iadd, 1) := by decide +kernel
theorem dL_law_275 : decode cL_law 275 = .ok (.iaload, 1) := by decide +kernel
theorem dL_law_276 : decode cL_law 276 = .ok (.invokevirtual 143, 3) := by decide +kernel
theorem dL_law_279 : decode cL_law 279 = .ok (.istore 6, 2) := by decide +kernel
theorem dL_law_281 : decode cL_law 281 = .ok (.aload_n 2, 1) := by decide +kernel
theorem dL_law_282 : decode cL_law 282 = .ok (.invokevirtual 144, 3) := by decide +kernel
theorem dL_law_285 : decode cL_law 285 = .ok (.iload 5, 2) := by decide +kernel
theorem dL_law_287 : decode cL_law 287 = .ok (.if_icmp .eq 5, 3) := by decide +kernel
theorem dL_law_290 : decode cL_law 290 = .ok (.iconst 0, 1) := by decide +kernel
theorem dL_law_291 : decode cL_law 291 = .ok (.ireturn, 1) := by decide +kernel
theorem dL_law_292 : decode cL_law 292 = .ok (.iload 5, 2) := by decide +kernel
theorem dL_law_294 : decode cL_law 294 = .ok (.ifCond .ne 22, 3) := by decide +kernel
theorem dL_law_297 : decode cL_law 297 = .ok (.aload_n 3, 1) := by decide +kernel
theorem dL_law_298 : decode cL_law 298 = .ok (.iconst 0, 1) := by decide +kernel
theorem dL_law_299 : decode cL_law 299 = .ok (.laload, 1) := by decide +kernel
theorem dL_law_300 : decode cL_law 300 = .ok (.iload 6, 2) := by decide +kernel
theorem dL_law_302 : decode cL_law 302 = .ok (.ifCond .eq 7, 3) := by decide +kernel
theorem dL_law_305 : decode cL_law 305 = .ok (.lconst 1, 1) := by decide +kernel
theorem dL_law_306 : decode cL_law 306 = .ok (.goto 4, 3) := by decide +kernel
theorem dL_law_309 : decode cL_law 309 = .ok (.lconst 0, 1) := by decide +kernel
theorem dL_law_310 : decode cL_law 310 = .ok (.lcmp, 1) := by decide +kernel
theorem dL_law_311 : decode cL_law 311 = .ok (.ifCond .eq 5, 3) := by decide +kernel
theorem dL_law_314 : decode cL_law 314 = .ok (.iconst 0, 1) := by decide +kernel
theorem dL_law_315 : decode cL_law 315 = .ok (.ireturn, 1) := by decide +kernel
theorem dL_law_316 : decode cL_law 316 = .ok (.goto 2590, 3) := by decide +kernel
theorem dL_law_319 : decode cL_law 319 = .ok (.aload_n 1, 1) := by decide +kernel
theorem dL_law_320 : decode cL_law 320 = .ok (.aload_n 0, 1) := by decide +kernel
theorem dL_law_321 : decode cL_law 321 = .ok (.iload 4, 2) := by decide +kernel
theorem dL_law_323 : decode cL_law 323 = .ok (.iconst 1, 1) := by decide +kernel
theorem dL_law_324 : decode cL_law 324 = .ok (.iadd, 1) := by decide +kernel
theorem dL_law_325 : decode cL_law 325 = .ok (.iaload, 1) := by decide +kernel
theorem dL_law_326 : decode cL_law 326 = .ok (.aload_n 0, 1) := by decide +kernel
theorem dL_law_327 : decode cL_law 327 = .ok (.iload 4, 2) := by decide +kernel
theorem dL_law_329 : decode cL_law 329 = .ok (.iconst 2, 1) := by decide +kernel
theorem dL_law_330 : decode cL_law 330 = .ok (.iadd, 1) := by decide +kernel
theorem dL_law_331 : decode cL_law 331 = .ok (.iaload, 1) := by decide +kernel
theorem dL_law_332 : decode cL_law 332 = .ok (.aload_n 3, 1) := by decide +kernel
theorem dL_law_333 : decode cL_law 333 = .ok (.invokestatic 147, 3) := by decide +kernel
theorem dL_law_336 : decode cL_law 336 = .ok (.istore 5, 2) := by decide +kernel
theorem dL_law_338 : decode cL_law 338 = .ok (.aload_n 2, 1) := by decide +kernel
theorem dL_law_339 : decode cL_law 339 = .ok (.aload_n 0, 1) := by decide +kernel
theorem dL_law_340 : decode cL_law 340 = .ok (.iload 4, 2) := by decide +kernel
theorem dL_law_342 : decode cL_law 342 = .ok (.iconst 1, 1) := by decide +kernel
theorem dL_law_343 : decode cL_law 343 = .ok (.iadd, 1) := by decide +kernel
theorem dL_law_344 : decode cL_law 344 = .ok (.iaload, 1) := by decide +kernel
theorem dL_law_345 : decode cL_law 345 = .ok (.aload_n 0, 1) := by decide +kernel
theorem dL_law_346 : decode cL_law 346 = .ok (.iload 4, 2) := by decide +kernel
theorem dL_law_348 : decode cL_law 348 = .ok (.iconst 2, 1) := by decide +kernel
theorem dL_law_349 : decode cL_law 349 = .ok (.iadd, 1) := by decide +kernel
theorem dL_law_350 : decode cL_law 350 = .ok (.iaload, 1) := by decide +kernel
theorem dL_law_351 : decode cL_law 351 = .ok (.invokevirtual 149, 3) := by decide +kernel
theorem dL_law_354 : decode cL_law 354 = .ok (.istore 6, 2) := by decide +kernel
theorem dL_law_356 : decode cL_law 356 = .ok (.aload_n 2, 1) := by decide +kernel
theorem dL_law_357 : decode cL_law 357 = .ok (.invokevirtual 144, 3) := by decide +kernel
theorem dL_law_360 : decode cL_law 360 = .ok (.iload 5, 2) := by decide +kernel
theorem dL_law_362 : decode cL_law 362 = .ok (.if_icmp .eq 5, 3) := by decide +kernel
theorem dL_law_365 : decode cL_law 365 = .ok (.iconst 0, 1) := by decide +kernel
theorem dL_law_366 : decode cL_law 366 = .ok (.ireturn, 1) := by decide +kernel
theorem dL_law_367 : decode cL_law 367 = .ok (.iload 5, 2) := by decide +kernel
theorem dL_law_369 : decode cL_law 369 = .ok (.ifCond .ne 22, 3) := by decide +kernel
theorem dL_law_372 : decode cL_law 372 = .ok (.aload_n 3, 1) := by decide +kernel
theorem dL_law_373 : decode cL_law 373 = .ok (.iconst 0, 1) := by decide +kernel
theorem dL_law_374 : decode cL_law 374 = .ok (.laload, 1) := by decide +kernel
theorem dL_law_375 : decode cL_law 375 = .ok (.iload 6, 2) := by decide +kernel
theorem dL_law_377 : decode cL_law 377 = .ok (.ifCond .eq 7, 3) := by decide +kernel
theorem dL_law_380 : decode cL_law 380 = .ok (.lconst 1, 1) := by decide +kernel
theorem dL_law_381 : decode cL_law 381 = .ok (.goto 4, 3) := by decide +kernel
theorem dL_law_384 : decode cL_law 384 = .ok (.lconst 0, 1) := by decide +kernel
theorem dL_law_385 : decode cL_law 385 = .ok (.lcmp, 1) := by decide +kernel
theorem dL_law_386 : decode cL_law 386 = .ok (.ifCond .eq 5, 3) := by decide +kernel
theorem dL_law_389 : decode cL_law 389 = .ok (.iconst 0, 1) := by decide +kernel
theorem dL_law_390 : decode cL_law 390 = .ok (.ireturn, 1) := by decide +kernel
theorem dL_law_391 : decode cL_law 391 = .ok (.goto 2515, 3) := by decide +kernel
theorem dL_law_394 : decode cL_law 394 = .ok (.aload_n 1, 1) := by decide +kernel
theorem dL_law_395 : decode cL_law 395 = .ok (.aload_n 0, 1) := by decide +kernel
theorem dL_law_396 : decode cL_law 396 = .ok (.iload 4, 2) := by decide +kernel
theorem dL_law_398 : decode cL_law 398 = .ok (.iconst 1, 1) := by decide +kernel
theorem dL_law_399 : decode cL_law 399 = .ok (.iadd, 1) := by decide +kernel
theorem dL_law_400 : decode cL_law 400 = .ok (.iaload, 1) := by decide +kernel
theorem dL_law_401 : decode cL_law 401 = .ok (.aload_n 0, 1) := by decide +kernel
theorem dL_law_402 : decode cL_law 402 = .ok (.iload 4, 2) := by decide +kernel
theorem dL_law_404 : decode cL_law 404 = .ok (.iconst 2, 1) := by decide +kernel
theorem dL_law_405 : decode cL_law 405 = .ok (.iadd, 1) := by decide +kernel
theorem dL_law_406 : decode cL_law 406 = .ok (.iaload, 1) := by decide +kernel
theorem dL_law_407 : decode cL_law 407 = .ok (.aload_n 3, 1) := by decide +kernel
theorem dL_law_408 : decode cL_law 408 = .ok (.invokestatic 150, 3) := by decide +kernel
theorem dL_law_411 : decode cL_law 411 = .ok (.istore 5, 2) := by decide +kernel
theorem dL_law_413 : decode cL_law 413 = .ok (.aload_n 2, 1) := by decide +kernel
theorem dL_law_414 : decode cL_law 414 = .ok (.aload_n 0, 1) := by decide +kernel
theorem dL_law_415 : decode cL_law 415 = .ok (.iload 4, 2) := by decide +kernel
theorem dL_law_417 : decode cL_law 417 = .ok (.iconst 1, 1) := by decide +kernel
theorem dL_law_418 : decode cL_law 418 = .ok (.iadd, 1) := by decide +kernel
theorem dL_law_419 : decode cL_law 419 = .ok (.iaload, 1) := by decide +kernel
theorem dL_law_420 : decode cL_law 420 = .ok (.aload_n 0, 1) := by decide +kernel
theorem dL_law_421 : decode cL_law 421 = .ok (.iload 4, 2) := by decide +kernel
theorem dL_law_423 : decode cL_law 423 = .ok (.iconst 2, 1) := by decide +kernel
theorem dL_law_424 : decode cL_law 424 = .ok (.iadd, 1) := by decide +kernel
theorem dL_law_425 : decode cL_law 425 = .ok (.iaload, 1) := by decide +kernel
theorem dL_law_426 : decode cL_law 426 = .ok (.invokevirtual 152, 3) := by decide +kernel
theorem dL_law_429 : decode cL_law 429 = .ok (.istore 6, 2) := by decide +kernel
theorem dL_law_431 : decode cL_law 431 = .ok (.aload_n 2, 1) := by decide +kernel
theorem dL_law_432 : decode cL_law 432 = .ok (.invokevirtual 144, 3) := by decide +kernel
theorem dL_law_435 : decode cL_law 435 = .ok (.iload 5, 2) := by decide +kernel
theorem dL_law_437 : decode cL_law 437 = .ok (.if_icmp .eq 5, 3) := by decide +kernel
theorem dL_law_440 : decode cL_law 440 = .ok (.iconst 0, 1) := by decide +kernel
theorem dL_law_441 : decode cL_law 441 = .ok (.ireturn, 1) := by decide +kernel
theorem dL_law_442 : decode cL_law 442 = .ok (.iload 5, 2) := by decide +kernel
theorem dL_law_444 : decode cL_law 444 = .ok (.ifCond .ne 22, 3) := by decide +kernel
theorem dL_law_447 : decode cL_law 447 = .ok (.aload_n 3, 1) := by decide +kernel
theorem dL_law_448 : decode cL_law 448 = .ok (.iconst 0, 1) := by decide +kernel
theorem dL_law_449 : decode cL_law 449 = .ok (.laload, 1) := by decide +kernel
theorem dL_law_450 : decode cL_law 450 = .ok (.iload 6, 2) := by decide +kernel
theorem dL_law_452 : decode cL_law 452 = .ok (.ifCond .eq 7, 3) := by decide +kernel
theorem dL_law_455 : decode cL_law 455 = .ok (.lconst 1, 1) := by decide +kernel
theorem dL_law_456 : decode cL_law 456 = .ok (.goto 4, 3) := by decide +kernel
theorem dL_law_459 : decode cL_law 459 = .ok (.lconst 0, 1) := by decide +kernel
theorem dL_law_460 : decode cL_law 460 = .ok (.lcmp, 1) := by decide +kernel
theorem dL_law_461 : decode cL_law 461 = .ok (.ifCond .eq 5, 3) := by decide +kernel
theorem dL_law_464 : decode cL_law 464 = .ok (.iconst 0, 1) := by decide +kernel
theorem dL_law_465 : decode cL_law 465 = .ok (.ireturn, 1) := by decide +kernel
theorem dL_law_466 : decode cL_law 466 = .ok (.goto 2440, 3) := by decide +kernel
theorem dL_law_469 : decode cL_law 469 = .ok (.aload_n 1, 1) := by decide +kernel
theorem dL_law_470 : decode cL_law 470 = .ok (.aload_n 0, 1) := by decide +kernel
theorem dL_law_471 : decode cL_law 471 = .ok (.iload 4, 2) := by decide +kernel
theorem dL_law_473 : decode cL_law 473 = .ok (.iconst 1, 1) := by decide +kernel
theorem dL_law_474 : decode cL_law 474 = .ok (.iadd, 1) := by decide +kernel
theorem dL_law_475 : decode cL_law 475 = .ok (.iaload, 1) := by decide +kernel
theorem dL_law_476 : decode cL_law 476 = .ok (.aload_n 3, 1) := by decide +kernel
theorem dL_law_477 : decode cL_law 477 = .ok (.invokestatic 153, 3) := by decide +kernel
theorem dL_law_480 : decode cL_law 480 = .ok (.istore 5, 2) := by decide +kernel
theorem dL_law_482 : decode cL_law 482 = .ok (.aload_n 2, 1) := by decide +kernel
theorem dL_law_483 : decode cL_law 483 = .ok (.aload_n 0, 1) := by decide +kernel
theorem dL_law_484 : decode cL_law 484 = .ok (.iload 4, 2) := by decide +kernel
theorem dL_law_486 : decode cL_law 486 = .ok (.iconst 1, 1) := by decide +kernel
theorem dL_law_487 : decode cL_law 487 = .ok (.iadd, 1) := by decide +kernel
theorem dL_law_488 : decode cL_law 488 = .ok (.iaload, 1) := by decide +kernel
theorem dL_law_489 : decode cL_law 489 = .ok (.invokevirtual 156, 3) := by decide +kernel
theorem dL_law_492 : decode cL_law 492 = .ok (.istore 6, 2) := by decide +kernel
theorem dL_law_494 : decode cL_law 494 = .ok (.aload_n 2, 1) := by decide +kernel
theorem dL_law_495 : decode cL_law 495 = .ok (.invokevirtual 144, 3) := by decide +kernel
theorem dL_law_498 : decode cL_law 498 = .ok (.iload 5, 2) := by decide +kernel
theorem dL_law_500 : decode cL_law 500 = .ok (.if_icmp .eq 5, 3) := by decide +kernel
theorem dL_law_503 : decode cL_law 503 = .ok (.iconst 0, 1) := by decide +kernel
theorem dL_law_504 : decode cL_law 504 = .ok (.ireturn, 1) := by decide +kernel
theorem dL_law_505 : decode cL_law 505 = .ok (.iload 5, 2) := by decide +kernel
theorem dL_law_507 : decode cL_law 507 = .ok (.ifCond .ne 15, 3) := by decide +kernel
theorem dL_law_510 : decode cL_law 510 = .ok (.aload_n 3, 1) := by decide +kernel
theorem dL_law_511 : decode cL_law 511 = .ok (.iconst 0, 1) := by decide +kernel
theorem dL_law_512 : decode cL_law 512 = .ok (.laload, 1) := by decide +kernel
theorem dL_law_513 : decode cL_law 513 = .ok (.iload 6, 2) := by decide +kernel
theorem dL_law_515 : decode cL_law 515 = .ok (.i2l, 1) := by decide +kernel
theorem dL_law_516 : decode cL_law 516 = .ok (.lcmp, 1) := by decide +kernel
theorem dL_law_517 : decode cL_law 517 = .ok (.ifCond .eq 5, 3) := by decide +kernel
theorem dL_law_520 : decode cL_law 520 = .ok (.iconst 0, 1) := by decide +kernel
theorem dL_law_521 : decode cL_law 521 = .ok (.ireturn, 1) := by decide +kernel
theorem dL_law_522 : decode cL_law 522 = .ok (.goto 2384, 3) := by decide +kernel
theorem dL_law_525 : decode cL_law 525 = .ok (.aload_n 1, 1) := by decide +kernel
theorem dL_law_526 : decode cL_law 526 = .ok (.aload_n 0, 1) := by decide +kernel
theorem dL_law_527 : decode cL_law 527 = .ok (.iload 4, 2) := by decide +kernel
theorem dL_law_529 : decode cL_law 529 = .ok (.iconst 1, 1) := by decide +kernel
theorem dL_law_530 : decode cL_law 530 = .ok (.iadd, 1) := by decide +kernel
theorem dL_law_531 : decode cL_law 531 = .ok (.iaload, 1) := by decide +kernel
theorem dL_law_532 : decode cL_law 532 = .ok (.aload_n 3, 1) := by decide +kernel
theorem dL_law_533 : decode cL_law 533 = .ok (.invokestatic 157, 3) := by decide +kernel
theorem dL_law_536 : decode cL_law 536 = .ok (.istore 5, 2) := by decide +kernel
theorem dL_law_538 : decode cL_law 538 = .ok (.aload_n 2, 1) := by decide +kernel
theorem dL_law_539 : decode cL_law 539 = .ok (.aload_n 0, 1) := by decide +kernel
theorem dL_law_540 : decode cL_law 540 = .ok (.iload 4, 2) := by decide +kernel
theorem dL_law_542 : decode cL_law 542 = .ok (.iconst 1, 1) := by decide +kernel
theorem dL_law_543 : decode cL_law 543 = .ok (.iadd, 1) := by decide +kernel
theorem dL_law_544 : decode cL_law 544 = .ok (.iaload, 1) := by decide +kernel
theorem dL_law_545 : decode cL_law 545 = .ok (.invokevirtual 159, 3) := by decide +kernel
