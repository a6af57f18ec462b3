theorem dL_law_2624 : decode cL_law 2624 = .ok (.invokevirtual 144, 3) := by decide +kernel
theorem dL_law_2627 : decode cL_law 2627 = .ok (.iload 5, 2) := by decide +kernel
theorem dL_law_2629 : decode cL_law 2629 = .ok (.if_icmp .eq 5, 3) := by decide +kernel
theorem dL_law_2632 : decode cL_law 2632 = .ok (.iconst 0, 1) := by decide +kernel
theorem dL_law_2633 : decode cL_law 2633 = .ok (.ireturn, 1) := by decide +kernel
theorem dL_law_2634 : decode cL_law 2634 = .ok (.iload 5, 2) := by decide +kernel
theorem dL_law_2636 : decode cL_law 2636 = .ok (.ifCond .ne 15, 3) := by decide +kernel
theorem dL_law_2639 : decode cL_law 2639 = .ok (.aload_n 3, 1) := by decide +kernel
theorem dL_law_2640 : decode cL_law 2640 = .ok (.iconst 0, 1) := by decide +kernel
theorem dL_law_2641 : decode cL_law 2641 = .ok (.laload, 1) := by decide +kernel
theorem dL_law_2642 : decode cL_law 2642 = .ok (.iload 6, 2) := by decide +kernel
theorem dL_law_2644 : decode cL_law 2644 = .ok (.i2l, 1) := by decide +kernel
theorem dL_law_2645 : decode cL_law 2645 = .ok (.lcmp, 1) := by decide +kernel
theorem dL_law_2646 : decode cL_law 2646 = .ok (.ifCond .eq 5, 3) := by decide +kernel
theorem dL_law_2649 : decode cL_law 2649 = .ok (.iconst 0, 1) := by decide +kernel
theorem dL_law_2650 : decode cL_law 2650 = .ok (.ireturn, 1) := by decide +kernel
theorem dL_law_2651 : decode cL_law 2651 = .ok (.goto 255, 3) := by decide +kernel
theorem dL_law_2654 : decode cL_law 2654 = .ok (.aload_n 1, 1) := by decide +kernel
theorem dL_law_2655 : decode cL_law 2655 = .ok (.aload_n 0, 1) := by decide +kernel
theorem dL_law_2656 : decode cL_law 2656 = .ok (.iload 4, 2) := by decide +kernel
theorem dL_law_2658 : decode cL_law 2658 = .ok (.iconst 1, 1) := by decide +kernel
theorem dL_law_2659 : decode cL_law 2659 = .ok (.iadd, 1) := by decide +kernel
theorem dL_law_2660 : decode cL_law 2660 = .ok (.iaload, 1) := by decide +kernel
theorem dL_law_2661 : decode cL_law 2661 = .ok (.aload_n 0, 1) := by decide +kernel
theorem dL_law_2662 : decode cL_law 2662 = .ok (.iload 4, 2) := by decide +kernel
theorem dL_law_2664 : decode cL_law 2664 = .ok (.iconst 2, 1) := by decide +kernel
theorem dL_law_2665 : decode cL_law 2665 = .ok (.iadd, 1) := by decide +kernel
theorem dL_law_2666 : decode cL_law 2666 = .ok (.iaload, 1) := by decide +kernel
theorem dL_law_2667 : decode cL_law 2667 = .ok (.aload_n 3, 1) := by decide +kernel
theorem dL_law_2668 : decode cL_law 2668 = .ok (.invokestatic 290, 3) := by decide +kernel
theorem dL_law_2671 : decode cL_law 2671 = .ok (.istore 5, 2) := by decide +kernel
theorem dL_law_2673 : decode cL_law 2673 = .ok (.aload_n 2, 1) := by decide +kernel
theorem dL_law_2674 : decode cL_law 2674 = .ok (.aload_n 0, 1) := by decide +kernel
theorem dL_law_2675 : decode cL_law 2675 = .ok (.iload 4, 2) := by decide +kernel
theorem dL_law_2677 : decode cL_law 2677 = .ok (.iconst 1, 1) := by decide +kernel
theorem dL_law_2678 : decode cL_law 2678 = .ok (.iadd, 1) := by decide +kernel
theorem dL_law_2679 : decode cL_law 2679 = .ok (.iaload, 1) := by decide +kernel
theorem dL_law_2680 : decode cL_law 2680 = .ok (.aload_n 0, 1) := by decide +kernel
theorem dL_law_2681 : decode cL_law 2681 = .ok (.iload 4, 2) := by decide +kernel
theorem dL_law_2683 : decode cL_law 2683 = .ok (.iconst 2, 1) := by decide +kernel
theorem dL_law_2684 : decode cL_law 2684 = .ok (.iadd, 1) := by decide +kernel
theorem dL_law_2685 : decode cL_law 2685 = .ok (.iaload, 1) := by decide +kernel
theorem dL_law_2686 : decode cL_law 2686 = .ok (.invokevirtual 292, 3) := by decide +kernel
theorem dL_law_2689 : decode cL_law 2689 = .ok (.istore 6, 2) := by decide +kernel
theorem dL_law_2691 : decode cL_law 2691 = .ok (.aload_n 2, 1) := by decide +kernel
theorem dL_law_2692 : decode cL_law 2692 = .ok (.invokevirtual 144, 3) := by decide +kernel
theorem dL_law_2695 : decode cL_law 2695 = .ok (.iload 5, 2) := by decide +kernel
theorem dL_law_2697 : decode cL_law 2697 = .ok (.if_icmp .eq 5, 3) := by decide +kernel
theorem dL_law_2700 : decode cL_law 2700 = .ok (.iconst 0, 1) := by decide +kernel
theorem dL_law_2701 : decode cL_law 2701 = .ok (.ireturn, 1) := by decide +kernel
theorem dL_law_2702 : decode cL_law 2702 = .ok (.iload 5, 2) := by decide +kernel
theorem dL_law_2704 : decode cL_law 2704 = .ok (.ifCond .ne 22, 3) := by decide +kernel
theorem dL_law_2707 : decode cL_law 2707 = .ok (.aload_n 3, 1) := by decide +kernel
theorem dL_law_2708 : decode cL_law 2708 = .ok (.iconst 0, 1) := by decide +kernel
theorem dL_law_2709 : decode cL_law 2709 = .ok (.laload, 1) := by decide +kernel
theorem dL_law_2710 : decode cL_law 2710 = .ok (.iload 6, 2) := by decide +kernel
theorem dL_law_2712 : decode cL_law 2712 = .ok (.ifCond .eq 7, 3) := by decide +kernel
theorem dL_law_2715 : decode cL_law 2715 = .ok (.lconst 1, 1) := by decide +kernel
theorem dL_law_2716 : decode cL_law 2716 = .ok (.goto 4, 3) := by decide +kernel
theorem dL_law_2719 : decode cL_law 2719 = .ok (.lconst 0, 1) := by decide +kernel
theorem dL_law_2720 : decode cL_law 2720 = .ok (.lcmp, 1) := by decide +kernel
theorem dL_law_2721 : decode cL_law 2721 = .ok (.ifCond .eq 5, 3) := by decide +kernel
theorem dL_law_2724 : decode cL_law 2724 = .ok (.iconst 0, 1) := by decide +kernel
theorem dL_law_2725 : decode cL_law 2725 = .ok (.ireturn, 1) := by decide +kernel
theorem dL_law_2726 : decode cL_law 2726 = .ok (.goto 180, 3) := by decide +kernel
theorem dL_law_2729 : decode cL_law 2729 = .ok (.aload_n 1, 1) := by decide +kernel
theorem dL_law_2730 : decode cL_law 2730 = .ok (.aload_n 0, 1) := by decide +kernel
theorem dL_law_2731 : decode cL_law 2731 = .ok (.iload 4, 2) := by decide +kernel
theorem dL_law_2733 : decode cL_law 2733 = .ok (.iconst 1, 1) := by decide +kernel
theorem dL_law_2734 : decode cL_law 2734 = .ok (.iadd, 1) := by decide +kernel
theorem dL_law_2735 : decode cL_law 2735 = .ok (.iaload, 1) := by decide +kernel
theorem dL_law_2736 : decode cL_law 2736 = .ok (.aload_n 0, 1) := by decide +kernel
theorem dL_law_2737 : decode cL_law 2737 = .ok (.iload 4, 2) := by decide +kernel
theorem dL_law_2739 : decode cL_law 2739 = .ok (.iconst 2, 1) := by decide +kernel
theorem dL_law_2740 : decode cL_law 2740 = .ok (.iadd, 1) := by decide +kernel
theorem dL_law_2741 : decode cL_law 2741 = .ok (.iaload, 1) := by decide +kernel
theorem dL_law_2742 : decode cL_law 2742 = .ok (.aload_n 0, 1) := by decide +kernel
theorem dL_law_2743 : decode cL_law 2743 = .ok (.iload 4, 2) := by decide +kernel
theorem dL_law_2745 : decode cL_law 2745 = .ok (.iconst 3, 1) := by decide +kernel
theorem dL_law_2746 : decode cL_law 2746 = .ok (.iadd, 1) := by decide +kernel
theorem dL_law_2747 : decode cL_law 2747 = .ok (.iaload, 1) := by decide +kernel
theorem dL_law_2748 : decode cL_law 2748 = .ok (.aload_n 3, 1) := by decide +kernel
theorem dL_law_2749 : decode cL_law 2749 = .ok (.invokestatic 293, 3) := by decide +kernel
theorem dL_law_2752 : decode cL_law 2752 = .ok (.istore 5, 2) := by decide +kernel
theorem dL_law_2754 : decode cL_law 2754 = .ok (.aload_n 2, 1) := by decide +kernel
theorem dL_law_2755 : decode cL_law 2755 = .ok (.aload_n 0, 1) := by decide +kernel
theorem dL_law_2756 : decode cL_law 2756 = .ok (.iload 4, 2) := by decide +kernel
theorem dL_law_2758 : decode cL_law 2758 = .ok (.iconst 1, 1) := by decide +kernel
theorem dL_law_2759 : decode cL_law 2759 = .ok (.iadd, 1) := by decide +kernel
theorem dL_law_2760 : decode cL_law 2760 = .ok (.iaload, 1) := by decide +kernel
theorem dL_law_2761 : decode cL_law 2761 = .ok (.aload_n 0, 1) := by decide +kernel
theorem dL_law_2762 : decode cL_law 2762 = .ok (.iload 4, 2) := by decide +kernel
theorem dL_law_2764 : decode cL_law 2764 = .ok (.iconst 2, 1) := by decide +kernel
theorem dL_law_2765 : decode cL_law 2765 = .ok (.iadd, 1) := by decide +kernel
theorem dL_law_2766 : decode cL_law 2766 = .ok (.iaload, 1) := by decide +kernel
theorem dL_law_2767 : decode cL_law 2767 = .ok (.aload_n 0, 1) := by decide +kernel
theorem dL_law_2768 : decode cL_law 2768 = .ok (.iload 4, 2) := by decide +kernel
theorem dL_law_2770 : decode cL_law 2770 = .ok (.iconst 3, 1) := by decide +kernel
theorem dL_law_2771 : decode cL_law 2771 = .ok (.iadd, 1) := by decide +kernel
theorem dL_law_2772 : decode cL_law 2772 = .ok (.iaload, 1) := by decide +kernel
theorem dL_law_2773 : decode cL_law 2773 = .ok (.invokevirtual 295, 3) := by decide +kernel
theorem dL_law_2776 : decode cL_law 2776 = .ok (.istore 6, 2) := by decide +kernel
theorem dL_law_2778 : decode cL_law 2778 = .ok (.aload_n 2, 1) := by decide +kernel
theorem dL_law_2779 : decode cL_law 2779 = .ok (.invokevirtual 144, 3) := by decide +kernel
theorem dL_law_2782 : decode cL_law 2782 = .ok (.iload 5, 2) := by decide +kernel
theorem dL_law_2784 : decode cL_law 2784 = .ok (.if_icmp .eq 5, 3) := by decide +kernel
theorem dL_law_2787 : decode cL_law 2787 = .ok (.iconst 0, 1) := by decide +kernel
theorem dL_law_2788 : decode cL_law 2788 = .ok (.ireturn, 1) := by decide +kernel
theorem dL_law_2789 : decode cL_law 2789 = .ok (.iload 5, 2) := by decide +kernel
theorem dL_law_2791 : decode cL_law 2791 = .ok (.ifCond .ne 15, 3) := by decide +kernel
theorem dL_law_2794 : decode cL_law 2794 = .ok (.aload_n 3, 1) := by decide +kernel
theorem dL_law_2795 : decode cL_law 2795 = .ok (.iconst 0, 1) := by decide +kernel
theorem dL_law_2796 : decode cL_law 2796 = .ok (.laload, 1) := by decide +kernel
theorem dL_law_2797 : decode cL_law 2797 = .ok (.iload 6, 2) := by decide +kernel
theorem dL_law_2799 : decode cL_law 2799 = .ok (.i2l, 1) := by decide +kernel
theorem dL_law_2800 : decode cL_law 2800 = .ok (.lcmp, 1) := by decide +kernel
theorem dL_law_2801 : decode cL_law 2801 = .ok (.ifCond .eq 5, 3) := by decide +kernel
theorem dL_law_2804 : decode cL_law 2804 = .ok (.iconst 0, 1) := by decide +kernel
theorem dL_law_2805 : decode cL_law 2805 = .ok (.ireturn, 1) := by decide +kernel
theorem dL_law_2806 : decode cL_law 2806 = .ok (.goto 100, 3) := by decide +kernel
theorem dL_law_2809 : decode cL_law 2809 = .ok (.aload_n 1, 1) := by decide +kernel
theorem dL_law_2810 : decode cL_law 2810 = .ok (.invokevirtual 296, 3) := by decide +kernel
theorem dL_law_2813 : decode cL_law 2813 = .ok (.aload_n 2, 1) := by decide +kernel
theorem dL_law_2814 : decode cL_law 2814 = .ok (.invokevirtual 299, 3) := by decide +kernel
theorem dL_law_2817 : decode cL_law 2817 = .ok (.if_icmp .eq 89, 3) := by decide +kernel
theorem dL_law_2820 : decode cL_law 2820 = .ok (.iconst 0, 1) := by decide +kernel
theorem dL_law_2821 : decode cL_law 2821 = .ok (.ireturn, 1) := by decide +kernel
theorem dL_law_2822 : decode cL_law 2822 = .ok (.aload_n 1, 1) := by decide +kernel
theorem dL_law_2823 : decode cL_law 2823 = .ok (.invokevirtual 300, 3) := by decide +kernel
theorem dL_law_2826 : decode cL_law 2826 = .ok (.dstore 5, 2) := by decide +kernel
theorem dL_law_2828 : decode cL_law 2828 = .ok (.aload_n 2, 1) := by decide +kernel
theorem dL_law_2829 : decode cL_law 2829 = .ok (.invokevirtual 304, 3) := by decide +kernel
theorem dL_law_2832 : decode cL_law 2832 = .ok (.dstore 7, 2) := by decide +kernel
theorem dL_law_2834 : decode cL_law 2834 = .ok (.dload 5, 2) := by decide +kernel
theorem dL_law_2836 : decode cL_law 2836 = .ok (.dload 7, 2) := by decide +kernel
theorem dL_law_2838 : decode cL_law 2838 = .ok (.dcmp .l, 1) := by decide +kernel
theorem dL_law_2839 : decode cL_law 2839 = .ok (.ifCond .eq 21, 3) := by decide +kernel
theorem dL_law_2842 : decode cL_law 2842 = .ok (.dload 5, 2) := by decide +kernel
theorem dL_law_2844 : decode cL_law 2844 = .ok (.dload 5, 2) := by decide +kernel
theorem dL_law_2846 : decode cL_law 2846 = .ok (.dcmp .l, 1) := by decide +kernel
theorem dL_law_2847 : decode cL_law 2847 = .ok (.ifCond .eq 11, 3) := by decide +kernel
theorem dL_law_2850 : decode cL_law 2850 = .ok (.dload 7, 2) := by decide +kernel
theorem dL_law_2852 : decode cL_law 2852 = .ok (.dload 7, 2) := by decide +kernel
theorem dL_law_2854 : decode cL_law 2854 = .ok (.dcmp .l, 1) := by decide +kernel
theorem dL_law_2855 : decode cL_law 2855 = .ok (.ifCond .ne 5, 3) := by decide +kernel
theorem dL_law_2858 : decode cL_law 2858 = .ok (.iconst 0, 1) := by decide +kernel
theorem dL_law_2859 : decode cL_law 2859 = .ok (.ireturn, 1) := by decide +kernel
theorem dL_law_2860 : decode cL_law 2860 = .ok (.goto 46, 3) := by decide +kernel
theorem dL_law_2863 : decode cL_law 2863 = .ok (.aload_n 1, 1) := by decide +kernel
theorem dL_law_2864 : decode cL_law 2864 = .ok (.invokevirtual 305, 3) := by decide +kernel
theorem dL_law_2867 : decode cL_law 2867 = .ok (.f2d, 1) := by decide +kernel
theorem dL_law_2868 : decode cL_law 2868 = .ok (.dstore 5, 2) := by decide +kernel
theorem dL_law_2870 : decode cL_law 2870 = .ok (.aload_n 2, 1) := by decide +kernel
theorem dL_law_2871 : decode cL_law 2871 = .ok (.invokevirtual 309, 3) := by decide +kernel
theorem dL_law_2874 : decode cL_law 2874 = .ok (.f2d, 1) := by decide +kernel
theorem dL_law_2875 : decode cL_law 2875 = .ok (.dstore 7, 2) := by decide +kernel
theorem dL_law_2877 : decode cL_law 2877 = .ok (.dload 5, 2) := by decide +kernel
theorem dL_law_2879 : decode cL_law 2879 = .ok (.dload 7, 2) := by decide +kernel
theorem dL_law_2881 : decode cL_law 2881 = .ok (.dcmp .l, 1) := by decide +kernel
theorem dL_law_2882 : decode cL_law 2882 = .ok (.ifCond .eq 21, 3) := by decide +kernel
theorem dL_law_2885 : decode cL_law 2885 = .ok (.dload 5, 2) := by decide +kernel
theorem dL_law_2887 : decode cL_law 2887 = .ok (.dload 5, 2) := by decide +kernel
theorem dL_law_2889 : decode cL_law 2889 = .ok (.dcmp .l, 1) := by decide +kernel
theorem dL_law_2890 : decode cL_law 2890 = .ok (.ifCond .eq 11, 3) := by decide +kernel
theorem dL_law_2893 : decode cL_law 2893 = .ok (.dload 7, 2) := by decide +kernel
theorem dL_law_2895 : decode cL_law 2895 = .ok (.dload 7, 2) := by decide +kernel
theorem dL_law_2897 : decode cL_law 2897 = .ok (.dcmp .l, 1) := by decide +kernel
theorem dL_law_2898 : decode cL_law 2898 = .ok (.ifCond .ne 5, 3) := by decide +kernel
theorem dL_law_2901 : decode cL_law 2901 = .ok (.iconst 0, 1) := by decide +kernel
theorem dL_law_2902 : decode cL_law 2902 = .ok (.ireturn, 1) := by decide +kernel
theorem dL_law_2903 : decode cL_law 2903 = .ok (.goto 3, 3) := by decide +kernel
theorem dL_law_2906 : decode cL_law 2906 = .ok (.iinc 4 5, 3) := by decide +kernel
theorem dL_law_2909 : decode cL_law 2909 = .ok (.goto (-2886), 3) := by decide +kernel
theorem dL_law_2912 : decode cL_law 2912 = .ok (.iconst 1, 1) := by decide +kernel
theorem dL_law_2913 : decode cL_law 2913 = .ok (.ireturn, 1) := by decide +kernel
