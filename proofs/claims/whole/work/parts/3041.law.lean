theorem dL_law_548 : decode cL_law 548 = .ok (.istore 6, 2) := by decide +kernel
theorem dL_law_550 : decode cL_law 550 = .ok (.aload_n 2, 1) := by decide +kernel
theorem dL_law_551 : decode cL_law 551 = .ok (.invokevirtual 144, 3) := by decide +kernel
theorem dL_law_554 : decode cL_law 554 = .ok (.iload 5, 2) := by decide +kernel
theorem dL_law_556 : decode cL_law 556 = .ok (.if_icmp .eq 5, 3) := by decide +kernel
theorem dL_law_559 : decode cL_law 559 = .ok (.iconst 0, 1) := by decide +kernel
theorem dL_law_560 : decode cL_law 560 = .ok (.ireturn, 1) := by decide +kernel
theorem dL_law_561 : decode cL_law 561 = .ok (.iload 5, 2) := by decide +kernel
theorem dL_law_563 : decode cL_law 563 = .ok (.ifCond .ne 15, 3) := by decide +kernel
theorem dL_law_566 : decode cL_law 566 = .ok (.aload_n 3, 1) := by decide +kernel
theorem dL_law_567 : decode cL_law 567 = .ok (.iconst 0, 1) := by decide +kernel
theorem dL_law_568 : decode cL_law 568 = .ok (.laload, 1) := by decide +kernel
theorem dL_law_569 : decode cL_law 569 = .ok (.iload 6, 2) := by decide +kernel
theorem dL_law_571 : decode cL_law 571 = .ok (.i2l, 1) := by decide +kernel
theorem dL_law_572 : decode cL_law 572 = .ok (.lcmp, 1) := by decide +kernel
theorem dL_law_573 : decode cL_law 573 = .ok (.ifCond .eq 5, 3) := by decide +kernel
theorem dL_law_576 : decode cL_law 576 = .ok (.iconst 0, 1) := by decide +kernel
theorem dL_law_577 : decode cL_law 577 = .ok (.ireturn, 1) := by decide +kernel
theorem dL_law_578 : decode cL_law 578 = .ok (.goto 2328, 3) := by decide +kernel
theorem dL_law_581 : decode cL_law 581 = .ok (.aload_n 1, 1) := by decide +kernel
theorem dL_law_582 : decode cL_law 582 = .ok (.aload_n 0, 1) := by decide +kernel
theorem dL_law_583 : decode cL_law 583 = .ok (.iload 4, 2) := by decide +kernel
theorem dL_law_585 : decode cL_law 585 = .ok (.iconst 1, 1) := by decide +kernel
theorem dL_law_586 : decode cL_law 586 = .ok (.iadd, 1) := by decide +kernel
theorem dL_law_587 : decode cL_law 587 = .ok (.iaload, 1) := by decide +kernel
theorem dL_law_588 : decode cL_law 588 = .ok (.aload_n 3, 1) := by decide +kernel
theorem dL_law_589 : decode cL_law 589 = .ok (.invokestatic 160, 3) := by decide +kernel
theorem dL_law_592 : decode cL_law 592 = .ok (.istore 5, 2) := by decide +kernel
theorem dL_law_594 : decode cL_law 594 = .ok (.aload_n 2, 1) := by decide +kernel
theorem dL_law_595 : decode cL_law 595 = .ok (.aload_n 0, 1) := by decide +kernel
theorem dL_law_596 : decode cL_law 596 = .ok (.iload 4, 2) := by decide +kernel
theorem dL_law_598 : decode cL_law 598 = .ok (.iconst 1, 1) := by decide +kernel
theorem dL_law_599 : decode cL_law 599 = .ok (.iadd, 1) := by decide +kernel
theorem dL_law_600 : decode cL_law 600 = .ok (.iaload, 1) := by decide +kernel
theorem dL_law_601 : decode cL_law 601 = .ok (.invokevirtual 162, 3) := by decide +kernel
theorem dL_law_604 : decode cL_law 604 = .ok (.istore 6, 2) := by decide +kernel
theorem dL_law_606 : decode cL_law 606 = .ok (.aload_n 2, 1) := by decide +kernel
theorem dL_law_607 : decode cL_law 607 = .ok (.invokevirtual 144, 3) := by decide +kernel
theorem dL_law_610 : decode cL_law 610 = .ok (.iload 5, 2) := by decide +kernel
theorem dL_law_612 : decode cL_law 612 = .ok (.if_icmp .eq 5, 3) := by decide +kernel
theorem dL_law_615 : decode cL_law 615 = .ok (.iconst 0, 1) := by decide +kernel
theorem dL_law_616 : decode cL_law 616 = .ok (.ireturn, 1) := by decide +kernel
theorem dL_law_617 : decode cL_law 617 = .ok (.iload 5, 2) := by decide +kernel
theorem dL_law_619 : decode cL_law 619 = .ok (.ifCond .ne 15, 3) := by decide +kernel
theorem dL_law_622 : decode cL_law 622 = .ok (.aload_n 3, 1) := by decide +kernel
theorem dL_law_623 : decode cL_law 623 = .ok (.iconst 0, 1) := by decide +kernel
theorem dL_law_624 : decode cL_law 624 = .ok (.laload, 1) := by decide +kernel
theorem dL_law_625 : decode cL_law 625 = .ok (.iload 6, 2) := by decide +kernel
theorem dL_law_627 : decode cL_law 627 = .ok (.i2l, 1) := by decide +kernel
theorem dL_law_628 : decode cL_law 628 = .ok (.lcmp, 1) := by decide +kernel
theorem dL_law_629 : decode cL_law 629 = .ok (.ifCond .eq 5, 3) := by decide +kernel
theorem dL_law_632 : decode cL_law 632 = .ok (.iconst 0, 1) := by decide +kernel
theorem dL_law_633 : decode cL_law 633 = .ok (.ireturn, 1) := by decide +kernel
theorem dL_law_634 : decode cL_law 634 = .ok (.goto 2272, 3) := by decide +kernel
theorem dL_law_637 : decode cL_law 637 = .ok (.aload_n 1, 1) := by decide +kernel
theorem dL_law_638 : decode cL_law 638 = .ok (.aload_n 0, 1) := by decide +kernel
theorem dL_law_639 : decode cL_law 639 = .ok (.iload 4, 2) := by decide +kernel
theorem dL_law_641 : decode cL_law 641 = .ok (.iconst 1, 1) := by decide +kernel
theorem dL_law_642 : decode cL_law 642 = .ok (.iadd, 1) := by decide +kernel
theorem dL_law_643 : decode cL_law 643 = .ok (.iaload, 1) := by decide +kernel
theorem dL_law_644 : decode cL_law 644 = .ok (.aload_n 0, 1) := by decide +kernel
theorem dL_law_645 : decode cL_law 645 = .ok (.iload 4, 2) := by decide +kernel
theorem dL_law_647 : decode cL_law 647 = .ok (.iconst 2, 1) := by decide +kernel
theorem dL_law_648 : decode cL_law 648 = .ok (.iadd, 1) := by decide +kernel
theorem dL_law_649 : decode cL_law 649 = .ok (.iaload, 1) := by decide +kernel
theorem dL_law_650 : decode cL_law 650 = .ok (.aload_n 0, 1) := by decide +kernel
theorem dL_law_651 : decode cL_law 651 = .ok (.iload 4, 2) := by decide +kernel
theorem dL_law_653 : decode cL_law 653 = .ok (.iconst 3, 1) := by decide +kernel
theorem dL_law_654 : decode cL_law 654 = .ok (.iadd, 1) := by decide +kernel
theorem dL_law_655 : decode cL_law 655 = .ok (.iaload, 1) := by decide +kernel
theorem dL_law_656 : decode cL_law 656 = .ok (.aload_n 0, 1) := by decide +kernel
theorem dL_law_657 : decode cL_law 657 = .ok (.iload 4, 2) := by decide +kernel
theorem dL_law_659 : decode cL_law 659 = .ok (.iconst 4, 1) := by decide +kernel
theorem dL_law_660 : decode cL_law 660 = .ok (.iadd, 1) := by decide +kernel
theorem dL_law_661 : decode cL_law 661 = .ok (.iaload, 1) := by decide +kernel
theorem dL_law_662 : decode cL_law 662 = .ok (.aload_n 3, 1) := by decide +kernel
theorem dL_law_663 : decode cL_law 663 = .ok (.invokestatic 163, 3) := by decide +kernel
theorem dL_law_666 : decode cL_law 666 = .ok (.istore 5, 2) := by decide +kernel
theorem dL_law_668 : decode cL_law 668 = .ok (.aload_n 2, 1) := by decide +kernel
theorem dL_law_669 : decode cL_law 669 = .ok (.aload_n 0, 1) := by decide +kernel
theorem dL_law_670 : decode cL_law 670 = .ok (.iload 4, 2) := by decide +kernel
theorem dL_law_672 : decode cL_law 672 = .ok (.iconst 1, 1) := by decide +kernel
theorem dL_law_673 : decode cL_law 673 = .ok (.iadd, 1) := by decide +kernel
theorem dL_law_674 : decode cL_law 674 = .ok (.iaload, 1) := by decide +kernel
theorem dL_law_675 : decode cL_law 675 = .ok (.aload_n 0, 1) := by decide +kernel
theorem dL_law_676 : decode cL_law 676 = .ok (.iload 4, 2) := by decide +kernel
theorem dL_law_678 : decode cL_law 678 = .ok (.iconst 2, 1) := by decide +kernel
theorem dL_law_679 : decode cL_law 679 = .ok (.iadd, 1) := by decide +kernel
theorem dL_law_680 : decode cL_law 680 = .ok (.iaload, 1) := by decide +kernel
theorem dL_law_681 : decode cL_law 681 = .ok (.aload_n 0, 1) := by decide +kernel
theorem dL_law_682 : decode cL_law 682 = .ok (.iload 4, 2) := by decide +kernel
theorem dL_law_684 : decode cL_law 684 = .ok (.iconst 3, 1) := by decide +kernel
theorem dL_law_685 : decode cL_law 685 = .ok (.iadd, 1) := by decide +kernel
theorem dL_law_686 : decode cL_law 686 = .ok (.iaload, 1) := by decide +kernel
theorem dL_law_687 : decode cL_law 687 = .ok (.aload_n 0, 1) := by decide +kernel
theorem dL_law_688 : decode cL_law 688 = .ok (.iload 4, 2) := by decide +kernel
theorem dL_law_690 : decode cL_law 690 = .ok (.iconst 4, 1) := by decide +kernel
theorem dL_law_691 : decode cL_law 691 = .ok (.iadd, 1) := by decide +kernel
theorem dL_law_692 : decode cL_law 692 = .ok (.iaload, 1) := by decide +kernel
theorem dL_law_693 : decode cL_law 693 = .ok (.invokevirtual 166, 3) := by decide +kernel
theorem dL_law_696 : decode cL_law 696 = .ok (.istore 6, 2) := by decide +kernel
theorem dL_law_698 : decode cL_law 698 = .ok (.aload_n 2, 1) := by decide +kernel
theorem dL_law_699 : decode cL_law 699 = .ok (.invokevirtual 144, 3) := by decide +kernel
theorem dL_law_702 : decode cL_law 702 = .ok (.iload 5, 2) := by decide +kernel
theorem dL_law_704 : decode cL_law 704 = .ok (.if_icmp .eq 5, 3) := by decide +kernel
theorem dL_law_707 : decode cL_law 707 = .ok (.iconst 0, 1) := by decide +kernel
theorem dL_law_708 : decode cL_law 708 = .ok (.ireturn, 1) := by decide +kernel
theorem dL_law_709 : decode cL_law 709 = .ok (.iload 5, 2) := by decide +kernel
theorem dL_law_711 : decode cL_law 711 = .ok (.ifCond .ne 15, 3) := by decide +kernel
theorem dL_law_714 : decode cL_law 714 = .ok (.aload_n 3, 1) := by decide +kernel
theorem dL_law_715 : decode cL_law 715 = .ok (.iconst 0, 1) := by decide +kernel
theorem dL_law_716 : decode cL_law 716 = .ok (.laload, 1) := by decide +kernel
theorem dL_law_717 : decode cL_law 717 = .ok (.iload 6, 2) := by decide +kernel
theorem dL_law_719 : decode cL_law 719 = .ok (.i2l, 1) := by decide +kernel
theorem dL_law_720 : decode cL_law 720 = .ok (.lcmp, 1) := by decide +kernel
theorem dL_law_721 : decode cL_law 721 = .ok (.ifCond .eq 5, 3) := by decide +kernel
theorem dL_law_724 : decode cL_law 724 = .ok (.iconst 0, 1) := by decide +kernel
theorem dL_law_725 : decode cL_law 725 = .ok (.ireturn, 1) := by decide +kernel
theorem dL_law_726 : decode cL_law 726 = .ok (.goto 2180, 3) := by decide +kernel
theorem dL_law_729 : decode cL_law 729 = .ok (.aload_n 1, 1) := by decide +kernel
theorem dL_law_730 : decode cL_law 730 = .ok (.aload_n 0, 1) := by decide +kernel
theorem dL_law_731 : decode cL_law 731 = .ok (.iload 4, 2) := by decide +kernel
theorem dL_law_733 : decode cL_law 733 = .ok (.iconst 1, 1) := by decide +kernel
theorem dL_law_734 : decode cL_law 734 = .ok (.iadd, 1) := by decide +kernel
theorem dL_law_735 : decode cL_law 735 = .ok (.iaload, 1) := by decide +kernel
theorem dL_law_736 : decode cL_law 736 = .ok (.aload_n 0, 1) := by decide +kernel
theorem dL_law_737 : decode cL_law 737 = .ok (.iload 4, 2) := by decide +kernel
theorem dL_law_739 : decode cL_law 739 = .ok (.iconst 2, 1) := by decide +kernel
theorem dL_law_740 : decode cL_law 740 = .ok (.iadd, 1) := by decide +kernel
theorem dL_law_741 : decode cL_law 741 = .ok (.iaload, 1) := by decide +kernel
theorem dL_law_742 : decode cL_law 742 = .ok (.aload_n 3, 1) := by decide +kernel
theorem dL_law_743 : decode cL_law 743 = .ok (.invokestatic 167, 3) := by decide +kernel
theorem dL_law_746 : decode cL_law 746 = .ok (.istore 5, 2) := by decide +kernel
theorem dL_law_748 : decode cL_law 748 = .ok (.aload_n 2, 1) := by decide +kernel
theorem dL_law_749 : decode cL_law 749 = .ok (.aload_n 0, 1) := by decide +kernel
theorem dL_law_750 : decode cL_law 750 = .ok (.iload 4, 2) := by decide +kernel
theorem dL_law_752 : decode cL_law 752 = .ok (.iconst 1, 1) := by decide +kernel
theorem dL_law_753 : decode cL_law 753 = .ok (.iadd, 1) := by decide +kernel
theorem dL_law_754 : decode cL_law 754 = .ok (.iaload, 1) := by decide +kernel
theorem dL_law_755 : decode cL_law 755 = .ok (.aload_n 0, 1) := by decide +kernel
theorem dL_law_756 : decode cL_law 756 = .ok (.iload 4, 2) := by decide +kernel
theorem dL_law_758 : decode cL_law 758 = .ok (.iconst 2, 1) := by decide +kernel
theorem dL_law_759 : decode cL_law 759 = .ok (.iadd, 1) := by decide +kernel
theorem dL_law_760 : decode cL_law 760 = .ok (.iaload, 1) := by decide +kernel
theorem dL_law_761 : decode cL_law 761 = .ok (.invokevirtual 169, 3) := by decide +kernel
theorem dL_law_764 : decode cL_law 764 = .ok (.istore 6, 2) := by decide +kernel
theorem dL_law_766 : decode cL_law 766 = .ok (.aload_n 2, 1) := by decide +kernel
theorem dL_law_767 : decode cL_law 767 = .ok (.invokevirtual 144, 3) := by decide +kernel
theorem dL_law_770 : decode cL_law 770 = .ok (.iload 5, 2) := by decide +kernel
theorem dL_law_772 : decode cL_law 772 = .ok (.if_icmp .eq 5, 3) := by decide +kernel
theorem dL_law_775 : decode cL_law 775 = .ok (.iconst 0, 1) := by decide +kernel
theorem dL_law_776 : decode cL_law 776 = .ok (.ireturn, 1) := by decide +kernel
theorem dL_law_777 : decode cL_law 777 = .ok (.iload 5, 2) := by decide +kernel
theorem dL_law_779 : decode cL_law 779 = .ok (.ifCond .ne 15, 3) := by decide +kernel
theorem dL_law_782 : decode cL_law 782 = .ok (.aload_n 3, 1) := by decide +kernel
theorem dL_law_783 : decode cL_law 783 = .ok (.iconst 0, 1) := by decide +kernel
theorem dL_law_784 : decode cL_law 784 = .ok (.laload, 1) := by decide +kernel
theorem dL_law_785 : decode cL_law 785 = .ok (.iload 6, 2) := by decide +kernel
theorem dL_law_787 : decode cL_law 787 = .ok (.i2l, 1) := by decide +kernel
theorem dL_law_788 : decode cL_law 788 = .ok (.lcmp, 1) := by decide +kernel
theorem dL_law_789 : decode cL_law 789 = .ok (.ifCond .eq 5, 3) := by decide +kernel
theorem dL_law_792 : decode cL_law 792 = .ok (.iconst 0, 1) := by decide +kernel
theorem dL_law_793 : decode cL_law 793 = .ok (.ireturn, 1) := by decide +kernel
theorem dL_law_794 : decode cL_law 794 = .ok (.goto 2112, 3) := by decide +kernel
theorem dL_law_797 : decode cL_law 797 = .ok (.aload_n 1, 1) := by decide +kernel
theorem dL_law_798 : decode cL_law 798 = .ok (.aload_n 0, 1) := by decide +kernel
theorem dL_law_799 : decode cL_law 799 = .ok (.iload 4, 2) := by decide +kernel
theorem dL_law_801 : decode cL_law 801 = .ok (.iconst 1, 1) := by decide +kernel
theorem dL_law_802 : decode cL_law 802 = .ok (.iadd, 1) := by decide +kernel
theorem dL_law_803 : decode cL_law 803 = .ok (.iaload, 1) := by decide +kernel
theorem dL_law_804 : decode cL_law 804 = .ok (.aload_n 3, 1) := by decide +kernel
theorem dL_law_805 : decode cL_law 805 = .ok (.invokestatic 170, 3) := by decide +kernel
theorem dL_law_808 : decode cL_law 808 = .ok (.istore 5, 2) := by decide +kernel
theorem dL_law_810 : decode cL_law 810 = .ok (.aload_n 2, 1) := by decide +kernel
theorem dL_law_811 : decode cL_law 811 = .ok (.aload_n 0, 1) := by decide +kernel
theorem dL_law_812 : decode cL_law 812 = .ok (.iload 4, 2) := by decide +kernel
theorem dL_law_814 : decode cL_law 814 = .ok (.iconst 1, 1) := by decide +kernel
theorem dL_law_815 : decode cL_law 815 = .ok (.iadd, 1) := by decide +kernel
theorem dL_law_816 : decode cL_law 816 = .ok (.iaload, 1) := by decide +kernel
theorem dL_law_817 : decode cL_law 817 = .ok (.invokevirtual 172, 3) := by decide +kernel
theorem dL_law_820 : decode cL_law 820 = .ok (.istore 6, 2) := by decide +kernel
theorem dL_law_822 : decode cL_law 822 = .ok (.aload_n 2, 1) := by decide +kernel
theorem dL_law_823 : decode cL_law 823 = .ok (.invokevirtual 144, 3) := by decide +kernel
theorem dL_law_826 : decode cL_law 826 = .ok (.iload 5, 2) := by decide +kernel
theorem dL_law_828 : decode cL_law 828 = .ok (.if_icmp .eq 5, 3) := by decide +kernel
theorem dL_law_831 : decode cL_law 831 = .ok (.iconst 0, 1) := by decide +kernel
theorem dL_law_832 : decode cL_law 832 = .ok (.ireturn, 1) := by decide +kernel
theorem dL_law_833 : decode cL_law 833 = .ok (.iload 5, 2) := by decide +kernel
theorem dL_law_835 : decode cL_law 835 = .ok (.ifCond .ne 15, 3) := by decide +kernel
theorem dL_law_838 : decode cL_law 838 = .ok (.aload_n 3, 1) := by decide +kernel
theorem dL_law_839 : decode cL_law 839 = .ok (.iconst 0, 1) := by decide +kernel
theorem dL_law_840 : decode cL_law 840 = .ok (.laload, 1) := by decide +kernel
theorem dL_law_841 : decode cL_law 841 = .ok (.iload 6, 2) := by decide +kernel
theorem dL_law_843 : decode cL_law 843 = .ok (.i2l, 1) := by decide +kernel
theorem dL_law_844 : decode cL_law 844 = .ok (.lcmp, 1) := by decide +kernel
theorem dL_law_845 : decode cL_law 845 = .ok (.ifCond .eq 5, 3) := by decide +kernel
theorem dL_law_848 : decode cL_law 848 = .ok (.iconst 0, 1) := by decide +kernel
theorem dL_law_849 : decode cL_law 849 = .ok (.ireturn, 1) := by decide +kernel
theorem dL_law_850 : decode cL_law 850 = .ok (.goto 2056, 3) := by decide +kernel
theorem dL_law_853 : decode cL_law 853 = .ok (.aload_n 1, 1) := by decide +kernel
theorem dL_law_854 : decode cL_law 854 = .ok (.aload_n 0, 1) := by decide +kernel
theorem dL_law_855 : decode cL_law 855 = .ok (.iload 4, 2) := by decide +kernel
theorem dL_law_857 : decode cL_law 857 = .ok (.iconst 1, 1) := by decide +kernel
theorem dL_law_858 : decode cL_law 858 = .ok (.iadd, 1) := by decide +kernel
theorem dL_law_859 : decode cL_law 859 = .ok (.iaload, 1) := by decide +kernel
theorem dL_law_860 : decode cL_law 860 = .ok (.aload_n 3, 1) := by decide +kernel
theorem dL_law_861 : decode cL_law 861 = .ok (.invokestatic 173, 3) := by decide +kernel
theorem dL_law_864 : decode cL_law 864 = .ok (.istore 5, 2) := by decide +kernel
theorem dL_law_866 : decode cL_law 866 = .ok (.aload_n 2, 1) := by decide +kernel
theorem dL_law_867 : decode cL_law 867 = .ok (.aload_n 0, 1) := by decide +kernel
theorem dL_law_868 : decode cL_law 868 = .ok (.iload 4, 2) := by decide +kernel
theorem dL_law_870 : decode cL_law 870 = .ok (.iconst 1, 1) := by decide +kernel
theorem dL_law_871 : decode cL_law 871 = .ok (.iadd, 1) := by decide +kernel
theorem dL_law_872 : decode cL_law 872 = .ok (.iaload, 1) := by decide +kernel
theorem dL_law_873 : decode cL_law 873 = .ok (.invokevirtual 175, 3) := by decide +kernel
theorem dL_law_876 : decode cL_law 876 = .ok (.istore 6, 2) := by decide +kernel
theorem dL_law_878 : decode cL_law 878 = .ok (.aload_n 2, 1) := by decide +kernel
theorem dL_law_879 : decode cL_law 879 = .ok (.invokevirtual 144, 3) := by decide +kernel
theorem dL_law_882 : decode cL_law 882 = .ok (.iload 5, 2) := by decide +kernel
theorem dL_law_884 : decode cL_law 884 = .ok (.if_icmp .eq 5, 3) := by decide +kernel
