theorem dL_law_2276 : decode cL_law 2276 = .ok (.aload_n 2, 1) := by decide +kernel
theorem dL_law_2277 : decode cL_law 2277 = .ok (.invokevirtual 261, 3) := by decide +kernel
theorem dL_law_2280 : decode cL_law 2280 = .ok (.if_icmp .eq 626, 3) := by decide +kernel
theorem dL_law_2283 : decode cL_law 2283 = .ok (.iconst 0, 1) := by decide +kernel
theorem dL_law_2284 : decode cL_law 2284 = .ok (.ireturn, 1) := by decide +kernel
theorem dL_law_2285 : decode cL_law 2285 = .ok (.aload_n 1, 1) := by decide +kernel
theorem dL_law_2286 : decode cL_law 2286 = .ok (.invokevirtual 262, 3) := by decide +kernel
theorem dL_law_2289 : decode cL_law 2289 = .ok (.aload_n 2, 1) := by decide +kernel
theorem dL_law_2290 : decode cL_law 2290 = .ok (.invokevirtual 265, 3) := by decide +kernel
theorem dL_law_2293 : decode cL_law 2293 = .ok (.if_icmp .eq 613, 3) := by decide +kernel
theorem dL_law_2296 : decode cL_law 2296 = .ok (.iconst 0, 1) := by decide +kernel
theorem dL_law_2297 : decode cL_law 2297 = .ok (.ireturn, 1) := by decide +kernel
theorem dL_law_2298 : decode cL_law 2298 = .ok (.aload_n 1, 1) := by decide +kernel
theorem dL_law_2299 : decode cL_law 2299 = .ok (.aload_n 0, 1) := by decide +kernel
theorem dL_law_2300 : decode cL_law 2300 = .ok (.iload 4, 2) := by decide +kernel
theorem dL_law_2302 : decode cL_law 2302 = .ok (.iconst 1, 1) := by decide +kernel
theorem dL_law_2303 : decode cL_law 2303 = .ok (.iadd, 1) := by decide +kernel
theorem dL_law_2304 : decode cL_law 2304 = .ok (.iaload, 1) := by decide +kernel
theorem dL_law_2305 : decode cL_law 2305 = .ok (.aload_n 3, 1) := by decide +kernel
theorem dL_law_2306 : decode cL_law 2306 = .ok (.invokestatic 266, 3) := by decide +kernel
theorem dL_law_2309 : decode cL_law 2309 = .ok (.istore 5, 2) := by decide +kernel
theorem dL_law_2311 : decode cL_law 2311 = .ok (.aload_n 2, 1) := by decide +kernel
theorem dL_law_2312 : decode cL_law 2312 = .ok (.aload_n 0, 1) := by decide +kernel
theorem dL_law_2313 : decode cL_law 2313 = .ok (.iload 4, 2) := by decide +kernel
theorem dL_law_2315 : decode cL_law 2315 = .ok (.iconst 1, 1) := by decide +kernel
theorem dL_law_2316 : decode cL_law 2316 = .ok (.iadd, 1) := by decide +kernel
theorem dL_law_2317 : decode cL_law 2317 = .ok (.iaload, 1) := by decide +kernel
theorem dL_law_2318 : decode cL_law 2318 = .ok (.invokevirtual 268, 3) := by decide +kernel
theorem dL_law_2321 : decode cL_law 2321 = .ok (.istore 6, 2) := by decide +kernel
theorem dL_law_2323 : decode cL_law 2323 = .ok (.aload_n 2, 1) := by decide +kernel
theorem dL_law_2324 : decode cL_law 2324 = .ok (.invokevirtual 144, 3) := by decide +kernel
theorem dL_law_2327 : decode cL_law 2327 = .ok (.iload 5, 2) := by decide +kernel
theorem dL_law_2329 : decode cL_law 2329 = .ok (.if_icmp .eq 5, 3) := by decide +kernel
theorem dL_law_2332 : decode cL_law 2332 = .ok (.iconst 0, 1) := by decide +kernel
theorem dL_law_2333 : decode cL_law 2333 = .ok (.ireturn, 1) := by decide +kernel
theorem dL_law_2334 : decode cL_law 2334 = .ok (.iload 5, 2) := by decide +kernel
theorem dL_law_2336 : decode cL_law 2336 = .ok (.ifCond .ne 15, 3) := by decide +kernel
theorem dL_law_2339 : decode cL_law 2339 = .ok (.aload_n 3, 1) := by decide +kernel
theorem dL_law_2340 : decode cL_law 2340 = .ok (.iconst 0, 1) := by decide +kernel
theorem dL_law_2341 : decode cL_law 2341 = .ok (.laload, 1) := by decide +kernel
theorem dL_law_2342 : decode cL_law 2342 = .ok (.iload 6, 2) := by decide +kernel
theorem dL_law_2344 : decode cL_law 2344 = .ok (.i2l, 1) := by decide +kernel
theorem dL_law_2345 : decode cL_law 2345 = .ok (.lcmp, 1) := by decide +kernel
theorem dL_law_2346 : decode cL_law 2346 = .ok (.ifCond .eq 5, 3) := by decide +kernel
theorem dL_law_2349 : decode cL_law 2349 = .ok (.iconst 0, 1) := by decide +kernel
theorem dL_law_2350 : decode cL_law 2350 = .ok (.ireturn, 1) := by decide +kernel
theorem dL_law_2351 : decode cL_law 2351 = .ok (.goto 555, 3) := by decide +kernel
theorem dL_law_2354 : decode cL_law 2354 = .ok (.aload_n 1, 1) := by decide +kernel
theorem dL_law_2355 : decode cL_law 2355 = .ok (.invokevirtual 269, 3) := by decide +kernel
theorem dL_law_2358 : decode cL_law 2358 = .ok (.aload_n 2, 1) := by decide +kernel
theorem dL_law_2359 : decode cL_law 2359 = .ok (.invokevirtual 272, 3) := by decide +kernel
theorem dL_law_2362 : decode cL_law 2362 = .ok (.if_icmp .eq 544, 3) := by decide +kernel
theorem dL_law_2365 : decode cL_law 2365 = .ok (.iconst 0, 1) := by decide +kernel
theorem dL_law_2366 : decode cL_law 2366 = .ok (.ireturn, 1) := by decide +kernel
theorem dL_law_2367 : decode cL_law 2367 = .ok (.aload_n 1, 1) := by decide +kernel
theorem dL_law_2368 : decode cL_law 2368 = .ok (.invokevirtual 273, 3) := by decide +kernel
theorem dL_law_2371 : decode cL_law 2371 = .ok (.aload_n 2, 1) := by decide +kernel
theorem dL_law_2372 : decode cL_law 2372 = .ok (.invokevirtual 276, 3) := by decide +kernel
theorem dL_law_2375 : decode cL_law 2375 = .ok (.if_icmp .eq 531, 3) := by decide +kernel
theorem dL_law_2378 : decode cL_law 2378 = .ok (.iconst 0, 1) := by decide +kernel
theorem dL_law_2379 : decode cL_law 2379 = .ok (.ireturn, 1) := by decide +kernel
theorem dL_law_2380 : decode cL_law 2380 = .ok (.aload_n 1, 1) := by decide +kernel
theorem dL_law_2381 : decode cL_law 2381 = .ok (.aload_n 3, 1) := by decide +kernel
theorem dL_law_2382 : decode cL_law 2382 = .ok (.invokestatic 277, 3) := by decide +kernel
theorem dL_law_2385 : decode cL_law 2385 = .ok (.istore 5, 2) := by decide +kernel
theorem dL_law_2387 : decode cL_law 2387 = .ok (.aload_n 2, 1) := by decide +kernel
theorem dL_law_2388 : decode cL_law 2388 = .ok (.invokevirtual 280, 3) := by decide +kernel
theorem dL_law_2391 : decode cL_law 2391 = .ok (.istore 6, 2) := by decide +kernel
theorem dL_law_2393 : decode cL_law 2393 = .ok (.aload_n 2, 1) := by decide +kernel
theorem dL_law_2394 : decode cL_law 2394 = .ok (.invokevirtual 144, 3) := by decide +kernel
theorem dL_law_2397 : decode cL_law 2397 = .ok (.iload 5, 2) := by decide +kernel
theorem dL_law_2399 : decode cL_law 2399 = .ok (.if_icmp .eq 5, 3) := by decide +kernel
theorem dL_law_2402 : decode cL_law 2402 = .ok (.iconst 0, 1) := by decide +kernel
theorem dL_law_2403 : decode cL_law 2403 = .ok (.ireturn, 1) := by decide +kernel
theorem dL_law_2404 : decode cL_law 2404 = .ok (.iload 5, 2) := by decide +kernel
theorem dL_law_2406 : decode cL_law 2406 = .ok (.ifCond .ne 15, 3) := by decide +kernel
theorem dL_law_2409 : decode cL_law 2409 = .ok (.aload_n 3, 1) := by decide +kernel
theorem dL_law_2410 : decode cL_law 2410 = .ok (.iconst 0, 1) := by decide +kernel
theorem dL_law_2411 : decode cL_law 2411 = .ok (.laload, 1) := by decide +kernel
theorem dL_law_2412 : decode cL_law 2412 = .ok (.iload 6, 2) := by decide +kernel
theorem dL_law_2414 : decode cL_law 2414 = .ok (.i2l, 1) := by decide +kernel
theorem dL_law_2415 : decode cL_law 2415 = .ok (.lcmp, 1) := by decide +kernel
theorem dL_law_2416 : decode cL_law 2416 = .ok (.ifCond .eq 5, 3) := by decide +kernel
theorem dL_law_2419 : decode cL_law 2419 = .ok (.iconst 0, 1) := by decide +kernel
theorem dL_law_2420 : decode cL_law 2420 = .ok (.ireturn, 1) := by decide +kernel
theorem dL_law_2421 : decode cL_law 2421 = .ok (.goto 485, 3) := by decide +kernel
theorem dL_law_2424 : decode cL_law 2424 = .ok (.aload_n 1, 1) := by decide +kernel
theorem dL_law_2425 : decode cL_law 2425 = .ok (.aload_n 0, 1) := by decide +kernel
theorem dL_law_2426 : decode cL_law 2426 = .ok (.iload 4, 2) := by decide +kernel
theorem dL_law_2428 : decode cL_law 2428 = .ok (.iconst 1, 1) := by decide +kernel
theorem dL_law_2429 : decode cL_law 2429 = .ok (.iadd, 1) := by decide +kernel
theorem dL_law_2430 : decode cL_law 2430 = .ok (.iaload, 1) := by decide +kernel
theorem dL_law_2431 : decode cL_law 2431 = .ok (.aload_n 0, 1) := by decide +kernel
theorem dL_law_2432 : decode cL_law 2432 = .ok (.iload 4, 2) := by decide +kernel
theorem dL_law_2434 : decode cL_law 2434 = .ok (.iconst 2, 1) := by decide +kernel
theorem dL_law_2435 : decode cL_law 2435 = .ok (.iadd, 1) := by decide +kernel
theorem dL_law_2436 : decode cL_law 2436 = .ok (.iaload, 1) := by decide +kernel
theorem dL_law_2437 : decode cL_law 2437 = .ok (.aload_n 3, 1) := by decide +kernel
theorem dL_law_2438 : decode cL_law 2438 = .ok (.invokestatic 281, 3) := by decide +kernel
theorem dL_law_2441 : decode cL_law 2441 = .ok (.istore 5, 2) := by decide +kernel
theorem dL_law_2443 : decode cL_law 2443 = .ok (.aload_n 2, 1) := by decide +kernel
theorem dL_law_2444 : decode cL_law 2444 = .ok (.aload_n 0, 1) := by decide +kernel
theorem dL_law_2445 : decode cL_law 2445 = .ok (.iload 4, 2) := by decide +kernel
theorem dL_law_2447 : decode cL_law 2447 = .ok (.iconst 1, 1) := by decide +kernel
theorem dL_law_2448 : decode cL_law 2448 = .ok (.iadd, 1) := by decide +kernel
theorem dL_law_2449 : decode cL_law 2449 = .ok (.iaload, 1) := by decide +kernel
theorem dL_law_2450 : decode cL_law 2450 = .ok (.aload_n 0, 1) := by decide +kernel
theorem dL_law_2451 : decode cL_law 2451 = .ok (.iload 4, 2) := by decide +kernel
theorem dL_law_2453 : decode cL_law 2453 = .ok (.iconst 2, 1) := by decide +kernel
theorem dL_law_2454 : decode cL_law 2454 = .ok (.iadd, 1) := by decide +kernel
theorem dL_law_2455 : decode cL_law 2455 = .ok (.iaload, 1) := by decide +kernel
theorem dL_law_2456 : decode cL_law 2456 = .ok (.invokevirtual 283, 3) := by decide +kernel
theorem dL_law_2459 : decode cL_law 2459 = .ok (.istore 6, 2) := by decide +kernel
theorem dL_law_2461 : decode cL_law 2461 = .ok (.aload_n 2, 1) := by decide +kernel
theorem dL_law_2462 : decode cL_law 2462 = .ok (.invokevirtual 144, 3) := by decide +kernel
theorem dL_law_2465 : decode cL_law 2465 = .ok (.iload 5, 2) := by decide +kernel
theorem dL_law_2467 : decode cL_law 2467 = .ok (.if_icmp .eq 5, 3) := by decide +kernel
theorem dL_law_2470 : decode cL_law 2470 = .ok (.iconst 0, 1) := by decide +kernel
theorem dL_law_2471 : decode cL_law 2471 = .ok (.ireturn, 1) := by decide +kernel
theorem dL_law_2472 : decode cL_law 2472 = .ok (.iload 5, 2) := by decide +kernel
theorem dL_law_2474 : decode cL_law 2474 = .ok (.ifCond .ne 22, 3) := by decide +kernel
theorem dL_law_2477 : decode cL_law 2477 = .ok (.aload_n 3, 1) := by decide +kernel
theorem dL_law_2478 : decode cL_law 2478 = .ok (.iconst 0, 1) := by decide +kernel
theorem dL_law_2479 : decode cL_law 2479 = .ok (.laload, 1) := by decide +kernel
theorem dL_law_2480 : decode cL_law 2480 = .ok (.iload 6, 2) := by decide +kernel
theorem dL_law_2482 : decode cL_law 2482 = .ok (.ifCond .eq 7, 3) := by decide +kernel
theorem dL_law_2485 : decode cL_law 2485 = .ok (.lconst 1, 1) := by decide +kernel
theorem dL_law_2486 : decode cL_law 2486 = .ok (.goto 4, 3) := by decide +kernel
theorem dL_law_2489 : decode cL_law 2489 = .ok (.lconst 0, 1) := by decide +kernel
theorem dL_law_2490 : decode cL_law 2490 = .ok (.lcmp, 1) := by decide +kernel
theorem dL_law_2491 : decode cL_law 2491 = .ok (.ifCond .eq 5, 3) := by decide +kernel
theorem dL_law_2494 : decode cL_law 2494 = .ok (.iconst 0, 1) := by decide +kernel
theorem dL_law_2495 : decode cL_law 2495 = .ok (.ireturn, 1) := by decide +kernel
theorem dL_law_2496 : decode cL_law 2496 = .ok (.goto 410, 3) := by decide +kernel
theorem dL_law_2499 : decode cL_law 2499 = .ok (.aload_n 1, 1) := by decide +kernel
theorem dL_law_2500 : decode cL_law 2500 = .ok (.aload_n 0, 1) := by decide +kernel
theorem dL_law_2501 : decode cL_law 2501 = .ok (.iload 4, 2) := by decide +kernel
theorem dL_law_2503 : decode cL_law 2503 = .ok (.iconst 1, 1) := by decide +kernel
theorem dL_law_2504 : decode cL_law 2504 = .ok (.iadd, 1) := by decide +kernel
theorem dL_law_2505 : decode cL_law 2505 = .ok (.iaload, 1) := by decide +kernel
theorem dL_law_2506 : decode cL_law 2506 = .ok (.aload_n 0, 1) := by decide +kernel
theorem dL_law_2507 : decode cL_law 2507 = .ok (.iload 4, 2) := by decide +kernel
theorem dL_law_2509 : decode cL_law 2509 = .ok (.iconst 2, 1) := by decide +kernel
theorem dL_law_2510 : decode cL_law 2510 = .ok (.iadd, 1) := by decide +kernel
theorem dL_law_2511 : decode cL_law 2511 = .ok (.iaload, 1) := by decide +kernel
theorem dL_law_2512 : decode cL_law 2512 = .ok (.aload_n 0, 1) := by decide +kernel
theorem dL_law_2513 : decode cL_law 2513 = .ok (.iload 4, 2) := by decide +kernel
theorem dL_law_2515 : decode cL_law 2515 = .ok (.iconst 3, 1) := by decide +kernel
theorem dL_law_2516 : decode cL_law 2516 = .ok (.iadd, 1) := by decide +kernel
theorem dL_law_2517 : decode cL_law 2517 = .ok (.iaload, 1) := by decide +kernel
theorem dL_law_2518 : decode cL_law 2518 = .ok (.aload_n 3, 1) := by decide +kernel
theorem dL_law_2519 : decode cL_law 2519 = .ok (.invokestatic 284, 3) := by decide +kernel
theorem dL_law_2522 : decode cL_law 2522 = .ok (.istore 5, 2) := by decide +kernel
theorem dL_law_2524 : decode cL_law 2524 = .ok (.aload_n 2, 1) := by decide +kernel
theorem dL_law_2525 : decode cL_law 2525 = .ok (.aload_n 0, 1) := by decide +kernel
theorem dL_law_2526 : decode cL_law 2526 = .ok (.iload 4, 2) := by decide +kernel
theorem dL_law_2528 : decode cL_law 2528 = .ok (.iconst 1, 1) := by decide +kernel
theorem dL_law_2529 : decode cL_law 2529 = .ok (.iadd, 1) := by decide +kernel
theorem dL_law_2530 : decode cL_law 2530 = .ok (.iaload, 1) := by decide +kernel
theorem dL_law_2531 : decode cL_law 2531 = .ok (.aload_n 0, 1) := by decide +kernel
theorem dL_law_2532 : decode cL_law 2532 = .ok (.iload 4, 2) := by decide +kernel
theorem dL_law_2534 : decode cL_law 2534 = .ok (.iconst 2, 1) := by decide +kernel
theorem dL_law_2535 : decode cL_law 2535 = .ok (.iadd, 1) := by decide +kernel
theorem dL_law_2536 : decode cL_law 2536 = .ok (.iaload, 1) := by decide +kernel
theorem dL_law_2537 : decode cL_law 2537 = .ok (.aload_n 0, 1) := by decide +kernel
theorem dL_law_2538 : decode cL_law 2538 = .ok (.iload 4, 2) := by decide +kernel
theorem dL_law_2540 : decode cL_law 2540 = .ok (.iconst 3, 1) := by decide +kernel
theorem dL_law_2541 : decode cL_law 2541 = .ok (.iadd, 1) := by decide +kernel
theorem dL_law_2542 : decode cL_law 2542 = .ok (.iaload, 1) := by decide +kernel
theorem dL_law_2543 : decode cL_law 2543 = .ok (.invokevirtual 286, 3) := by decide +kernel
theorem dL_law_2546 : decode cL_law 2546 = .ok (.istore 6, 2) := by decide +kernel
theorem dL_law_2548 : decode cL_law 2548 = .ok (.aload_n 2, 1) := by decide +kernel
theorem dL_law_2549 : decode cL_law 2549 = .ok (.invokevirtual 144, 3) := by decide +kernel
theorem dL_law_2552 : decode cL_law 2552 = .ok (.iload 5, 2) := by decide +kernel
theorem dL_law_2554 : decode cL_law 2554 = .ok (.if_icmp .eq 5, 3) := by decide +kernel
theorem dL_law_2557 : decode cL_law 2557 = .ok (.iconst 0, 1) := by decide +kernel
theorem dL_law_2558 : decode cL_law 2558 = .ok (.ireturn, 1) := by decide +kernel
theorem dL_law_2559 : decode cL_law 2559 = .ok (.iload 5, 2) := by decide +kernel
theorem dL_law_2561 : decode cL_law 2561 = .ok (.ifCond .ne 22, 3) := by decide +kernel
theorem dL_law_2564 : decode cL_law 2564 = .ok (.aload_n 3, 1) := by decide +kernel
theorem dL_law_2565 : decode cL_law 2565 = .ok (.iconst 0, 1) := by decide +kernel
theorem dL_law_2566 : decode cL_law 2566 = .ok (.laload, 1) := by decide +kernel
theorem dL_law_2567 : decode cL_law 2567 = .ok (.iload 6, 2) := by decide +kernel
theorem dL_law_2569 : decode cL_law 2569 = .ok (.ifCond .eq 7, 3) := by decide +kernel
theorem dL_law_2572 : decode cL_law 2572 = .ok (.lconst 1, 1) := by decide +kernel
theorem dL_law_2573 : decode cL_law 2573 = .ok (.goto 4, 3) := by decide +kernel
theorem dL_law_2576 : decode cL_law 2576 = .ok (.lconst 0, 1) := by decide +kernel
theorem dL_law_2577 : decode cL_law 2577 = .ok (.lcmp, 1) := by decide +kernel
theorem dL_law_2578 : decode cL_law 2578 = .ok (.ifCond .eq 5, 3) := by decide +kernel
theorem dL_law_2581 : decode cL_law 2581 = .ok (.iconst 0, 1) := by decide +kernel
theorem dL_law_2582 : decode cL_law 2582 = .ok (.ireturn, 1) := by decide +kernel
theorem dL_law_2583 : decode cL_law 2583 = .ok (.goto 323, 3) := by decide +kernel
theorem dL_law_2586 : decode cL_law 2586 = .ok (.aload_n 1, 1) := by decide +kernel
theorem dL_law_2587 : decode cL_law 2587 = .ok (.aload_n 0, 1) := by decide +kernel
theorem dL_law_2588 : decode cL_law 2588 = .ok (.iload 4, 2) := by decide +kernel
theorem dL_law_2590 : decode cL_law 2590 = .ok (.iconst 1, 1) := by decide +kernel
theorem dL_law_2591 : decode cL_law 2591 = .ok (.iadd, 1) := by decide +kernel
theorem dL_law_2592 : decode cL_law 2592 = .ok (.iaload, 1) := by decide +kernel
theorem dL_law_2593 : decode cL_law 2593 = .ok (.aload_n 0, 1) := by decide +kernel
theorem dL_law_2594 : decode cL_law 2594 = .ok (.iload 4, 2) := by decide +kernel
theorem dL_law_2596 : decode cL_law 2596 = .ok (.iconst 2, 1) := by decide +kernel
theorem dL_law_2597 : decode cL_law 2597 = .ok (.iadd, 1) := by decide +kernel
theorem dL_law_2598 : decode cL_law 2598 = .ok (.iaload, 1) := by decide +kernel
theorem dL_law_2599 : decode cL_law 2599 = .ok (.aload_n 3, 1) := by decide +kernel
theorem dL_law_2600 : decode cL_law 2600 = .ok (.invokestatic 287, 3) := by decide +kernel
theorem dL_law_2603 : decode cL_law 2603 = .ok (.istore 5, 2) := by decide +kernel
theorem dL_law_2605 : decode cL_law 2605 = .ok (.aload_n 2, 1) := by decide +kernel
theorem dL_law_2606 : decode cL_law 2606 = .ok (.aload_n 0, 1) := by decide +kernel
theorem dL_law_2607 : decode cL_law 2607 = .ok (.iload 4, 2) := by decide +kernel
theorem dL_law_2609 : decode cL_law 2609 = .ok (.iconst 1, 1) := by decide +kernel
theorem dL_law_2610 : decode cL_law 2610 = .ok (.iadd, 1) := by decide +kernel
theorem dL_law_2611 : decode cL_law 2611 = .ok (.iaload, 1) := by decide +kernel
theorem dL_law_2612 : decode cL_law 2612 = .ok (.aload_n 0, 1) := by decide +kernel
theorem dL_law_2613 : decode cL_law 2613 = .ok (.iload 4, 2) := by decide +kernel
theorem dL_law_2615 : decode cL_law 2615 = .ok (.iconst 2, 1) := by decide +kernel
theorem dL_law_2616 : decode cL_law 2616 = .ok (.iadd, 1) := by decide +kernel
theorem dL_law_2617 : decode cL_law 2617 = .ok (.iaload, 1) := by decide +kernel
theorem dL_law_2618 : decode cL_law 2618 = .ok (.invokevirtual 289, 3) := by decide +kernel
theorem dL_law_2621 : decode cL_law 2621 = .ok (.istore 6, 2) := by decide +kernel
theorem dL_law_2623 : decode cL_law 2623 = .ok (.aload_n 2, 1) := by decide +kernel
