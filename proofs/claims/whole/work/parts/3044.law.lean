theorem dL_law_1567 : decode cL_law 1567 = .ok (.iconst 1, 1) := by decide +kernel
theorem dL_law_1568 : decode cL_law 1568 = .ok (.iadd, 1) := by decide +kernel
theorem dL_law_1569 : decode cL_law 1569 = .ok (.iaload, 1) := by decide +kernel
theorem dL_law_1570 : decode cL_law 1570 = .ok (.aload_n 0, 1) := by decide +kernel
theorem dL_law_1571 : decode cL_law 1571 = .ok (.iload 4, 2) := by decide +kernel
theorem dL_law_1573 : decode cL_law 1573 = .ok (.iconst 2, 1) := by decide +kernel
theorem dL_law_1574 : decode cL_law 1574 = .ok (.iadd, 1) := by decide +kernel
theorem dL_law_1575 : decode cL_law 1575 = .ok (.iaload, 1) := by decide +kernel
theorem dL_law_1576 : decode cL_law 1576 = .ok (.aload_n 3, 1) := by decide +kernel
theorem dL_law_1577 : decode cL_law 1577 = .ok (.invokestatic 204, 3) := by decide +kernel
theorem dL_law_1580 : decode cL_law 1580 = .ok (.istore 5, 2) := by decide +kernel
theorem dL_law_1582 : decode cL_law 1582 = .ok (.aload_n 2, 1) := by decide +kernel
theorem dL_law_1583 : decode cL_law 1583 = .ok (.aload_n 0, 1) := by decide +kernel
theorem dL_law_1584 : decode cL_law 1584 = .ok (.iload 4, 2) := by decide +kernel
theorem dL_law_1586 : decode cL_law 1586 = .ok (.iconst 1, 1) := by decide +kernel
theorem dL_law_1587 : decode cL_law 1587 = .ok (.iadd, 1) := by decide +kernel
theorem dL_law_1588 : decode cL_law 1588 = .ok (.iaload, 1) := by decide +kernel
theorem dL_law_1589 : decode cL_law 1589 = .ok (.aload_n 0, 1) := by decide +kernel
theorem dL_law_1590 : decode cL_law 1590 = .ok (.iload 4, 2) := by decide +kernel
theorem dL_law_1592 : decode cL_law 1592 = .ok (.iconst 2, 1) := by decide +kernel
theorem dL_law_1593 : decode cL_law 1593 = .ok (.iadd, 1) := by decide +kernel
theorem dL_law_1594 : decode cL_law 1594 = .ok (.iaload, 1) := by decide +kernel
theorem dL_law_1595 : decode cL_law 1595 = .ok (.invokevirtual 206, 3) := by decide +kernel
theorem dL_law_1598 : decode cL_law 1598 = .ok (.istore 6, 2) := by decide +kernel
theorem dL_law_1600 : decode cL_law 1600 = .ok (.aload_n 2, 1) := by decide +kernel
theorem dL_law_1601 : decode cL_law 1601 = .ok (.invokevirtual 144, 3) := by decide +kernel
theorem dL_law_1604 : decode cL_law 1604 = .ok (.iload 5, 2) := by decide +kernel
theorem dL_law_1606 : decode cL_law 1606 = .ok (.if_icmp .eq 5, 3) := by decide +kernel
theorem dL_law_1609 : decode cL_law 1609 = .ok (.iconst 0, 1) := by decide +kernel
theorem dL_law_1610 : decode cL_law 1610 = .ok (.ireturn, 1) := by decide +kernel
theorem dL_law_1611 : decode cL_law 1611 = .ok (.iload 5, 2) := by decide +kernel
theorem dL_law_1613 : decode cL_law 1613 = .ok (.ifCond .ne 15, 3) := by decide +kernel
theorem dL_law_1616 : decode cL_law 1616 = .ok (.aload_n 3, 1) := by decide +kernel
theorem dL_law_1617 : decode cL_law 1617 = .ok (.iconst 0, 1) := by decide +kernel
theorem dL_law_1618 : decode cL_law 1618 = .ok (.laload, 1) := by decide +kernel
theorem dL_law_1619 : decode cL_law 1619 = .ok (.iload 6, 2) := by decide +kernel
theorem dL_law_1621 : decode cL_law 1621 = .ok (.i2l, 1) := by decide +kernel
theorem dL_law_1622 : decode cL_law 1622 = .ok (.lcmp, 1) := by decide +kernel
theorem dL_law_1623 : decode cL_law 1623 = .ok (.ifCond .eq 5, 3) := by decide +kernel
theorem dL_law_1626 : decode cL_law 1626 = .ok (.iconst 0, 1) := by decide +kernel
theorem dL_law_1627 : decode cL_law 1627 = .ok (.ireturn, 1) := by decide +kernel
theorem dL_law_1628 : decode cL_law 1628 = .ok (.goto 1278, 3) := by decide +kernel
theorem dL_law_1631 : decode cL_law 1631 = .ok (.aload_n 1, 1) := by decide +kernel
theorem dL_law_1632 : decode cL_law 1632 = .ok (.aload_n 0, 1) := by decide +kernel
theorem dL_law_1633 : decode cL_law 1633 = .ok (.iload 4, 2) := by decide +kernel
theorem dL_law_1635 : decode cL_law 1635 = .ok (.iconst 1, 1) := by decide +kernel
theorem dL_law_1636 : decode cL_law 1636 = .ok (.iadd, 1) := by decide +kernel
theorem dL_law_1637 : decode cL_law 1637 = .ok (.iaload, 1) := by decide +kernel
theorem dL_law_1638 : decode cL_law 1638 = .ok (.aload_n 3, 1) := by decide +kernel
theorem dL_law_1639 : decode cL_law 1639 = .ok (.invokestatic 207, 3) := by decide +kernel
theorem dL_law_1642 : decode cL_law 1642 = .ok (.istore 5, 2) := by decide +kernel
theorem dL_law_1644 : decode cL_law 1644 = .ok (.aload_n 2, 1) := by decide +kernel
theorem dL_law_1645 : decode cL_law 1645 = .ok (.aload_n 0, 1) := by decide +kernel
theorem dL_law_1646 : decode cL_law 1646 = .ok (.iload 4, 2) := by decide +kernel
theorem dL_law_1648 : decode cL_law 1648 = .ok (.iconst 1, 1) := by decide +kernel
theorem dL_law_1649 : decode cL_law 1649 = .ok (.iadd, 1) := by decide +kernel
theorem dL_law_1650 : decode cL_law 1650 = .ok (.iaload, 1) := by decide +kernel
theorem dL_law_1651 : decode cL_law 1651 = .ok (.invokevirtual 209, 3) := by decide +kernel
theorem dL_law_1654 : decode cL_law 1654 = .ok (.istore 6, 2) := by decide +kernel
theorem dL_law_1656 : decode cL_law 1656 = .ok (.aload_n 2, 1) := by decide +kernel
theorem dL_law_1657 : decode cL_law 1657 = .ok (.invokevirtual 144, 3) := by decide +kernel
theorem dL_law_1660 : decode cL_law 1660 = .ok (.iload 5, 2) := by decide +kernel
theorem dL_law_1662 : decode cL_law 1662 = .ok (.if_icmp .eq 5, 3) := by decide +kernel
theorem dL_law_1665 : decode cL_law 1665 = .ok (.iconst 0, 1) := by decide +kernel
theorem dL_law_1666 : decode cL_law 1666 = .ok (.ireturn, 1) := by decide +kernel
theorem dL_law_1667 : decode cL_law 1667 = .ok (.iload 5, 2) := by decide +kernel
theorem dL_law_1669 : decode cL_law 1669 = .ok (.ifCond .ne 22, 3) := by decide +kernel
theorem dL_law_1672 : decode cL_law 1672 = .ok (.aload_n 3, 1) := by decide +kernel
theorem dL_law_1673 : decode cL_law 1673 = .ok (.iconst 0, 1) := by decide +kernel
theorem dL_law_1674 : decode cL_law 1674 = .ok (.laload, 1) := by decide +kernel
theorem dL_law_1675 : decode cL_law 1675 = .ok (.iload 6, 2) := by decide +kernel
theorem dL_law_1677 : decode cL_law 1677 = .ok (.ifCond .eq 7, 3) := by decide +kernel
theorem dL_law_1680 : decode cL_law 1680 = .ok (.lconst 1, 1) := by decide +kernel
theorem dL_law_1681 : decode cL_law 1681 = .ok (.goto 4, 3) := by decide +kernel
theorem dL_law_1684 : decode cL_law 1684 = .ok (.lconst 0, 1) := by decide +kernel
theorem dL_law_1685 : decode cL_law 1685 = .ok (.lcmp, 1) := by decide +kernel
theorem dL_law_1686 : decode cL_law 1686 = .ok (.ifCond .eq 5, 3) := by decide +kernel
theorem dL_law_1689 : decode cL_law 1689 = .ok (.iconst 0, 1) := by decide +kernel
theorem dL_law_1690 : decode cL_law 1690 = .ok (.ireturn, 1) := by decide +kernel
theorem dL_law_1691 : decode cL_law 1691 = .ok (.goto 1215, 3) := by decide +kernel
theorem dL_law_1694 : decode cL_law 1694 = .ok (.aload_n 1, 1) := by decide +kernel
theorem dL_law_1695 : decode cL_law 1695 = .ok (.aload_n 0, 1) := by decide +kernel
theorem dL_law_1696 : decode cL_law 1696 = .ok (.iload 4, 2) := by decide +kernel
theorem dL_law_1698 : decode cL_law 1698 = .ok (.iconst 1, 1) := by decide +kernel
theorem dL_law_1699 : decode cL_law 1699 = .ok (.iadd, 1) := by decide +kernel
theorem dL_law_1700 : decode cL_law 1700 = .ok (.iaload, 1) := by decide +kernel
theorem dL_law_1701 : decode cL_law 1701 = .ok (.aload_n 3, 1) := by decide +kernel
theorem dL_law_1702 : decode cL_law 1702 = .ok (.invokestatic 210, 3) := by decide +kernel
theorem dL_law_1705 : decode cL_law 1705 = .ok (.istore 5, 2) := by decide +kernel
theorem dL_law_1707 : decode cL_law 1707 = .ok (.aload_n 2, 1) := by decide +kernel
theorem dL_law_1708 : decode cL_law 1708 = .ok (.aload_n 0, 1) := by decide +kernel
theorem dL_law_1709 : decode cL_law 1709 = .ok (.iload 4, 2) := by decide +kernel
theorem dL_law_1711 : decode cL_law 1711 = .ok (.iconst 1, 1) := by decide +kernel
theorem dL_law_1712 : decode cL_law 1712 = .ok (.iadd, 1) := by decide +kernel
theorem dL_law_1713 : decode cL_law 1713 = .ok (.iaload, 1) := by decide +kernel
theorem dL_law_1714 : decode cL_law 1714 = .ok (.invokevirtual 212, 3) := by decide +kernel
theorem dL_law_1717 : decode cL_law 1717 = .ok (.istore 6, 2) := by decide +kernel
theorem dL_law_1719 : decode cL_law 1719 = .ok (.aload_n 2, 1) := by decide +kernel
theorem dL_law_1720 : decode cL_law 1720 = .ok (.invokevirtual 144, 3) := by decide +kernel
theorem dL_law_1723 : decode cL_law 1723 = .ok (.iload 5, 2) := by decide +kernel
theorem dL_law_1725 : decode cL_law 1725 = .ok (.if_icmp .eq 5, 3) := by decide +kernel
theorem dL_law_1728 : decode cL_law 1728 = .ok (.iconst 0, 1) := by decide +kernel
theorem dL_law_1729 : decode cL_law 1729 = .ok (.ireturn, 1) := by decide +kernel
theorem dL_law_1730 : decode cL_law 1730 = .ok (.iload 5, 2) := by decide +kernel
theorem dL_law_1732 : decode cL_law 1732 = .ok (.ifCond .ne 22, 3) := by decide +kernel
theorem dL_law_1735 : decode cL_law 1735 = .ok (.aload_n 3, 1) := by decide +kernel
theorem dL_law_1736 : decode cL_law 1736 = .ok (.iconst 0, 1) := by decide +kernel
theorem dL_law_1737 : decode cL_law 1737 = .ok (.laload, 1) := by decide +kernel
theorem dL_law_1738 : decode cL_law 1738 = .ok (.iload 6, 2) := by decide +kernel
theorem dL_law_1740 : decode cL_law 1740 = .ok (.ifCond .eq 7, 3) := by decide +kernel
theorem dL_law_1743 : decode cL_law 1743 = .ok (.lconst 1, 1) := by decide +kernel
theorem dL_law_1744 : decode cL_law 1744 = .ok (.goto 4, 3) := by decide +kernel
theorem dL_law_1747 : decode cL_law 1747 = .ok (.lconst 0, 1) := by decide +kernel
theorem dL_law_1748 : decode cL_law 1748 = .ok (.lcmp, 1) := by decide +kernel
theorem dL_law_1749 : decode cL_law 1749 = .ok (.ifCond .eq 5, 3) := by decide +kernel
theorem dL_law_1752 : decode cL_law 1752 = .ok (.iconst 0, 1) := by decide +kernel
theorem dL_law_1753 : decode cL_law 1753 = .ok (.ireturn, 1) := by decide +kernel
theorem dL_law_1754 : decode cL_law 1754 = .ok (.goto 1152, 3) := by decide +kernel
theorem dL_law_1757 : decode cL_law 1757 = .ok (.aload_n 1, 1) := by decide +kernel
theorem dL_law_1758 : decode cL_law 1758 = .ok (.aload_n 0, 1) := by decide +kernel
theorem dL_law_1759 : decode cL_law 1759 = .ok (.iload 4, 2) := by decide +kernel
theorem dL_law_1761 : decode cL_law 1761 = .ok (.iconst 1, 1) := by decide +kernel
theorem dL_law_1762 : decode cL_law 1762 = .ok (.iadd, 1) := by decide +kernel
theorem dL_law_1763 : decode cL_law 1763 = .ok (.iaload, 1) := by decide +kernel
theorem dL_law_1764 : decode cL_law 1764 = .ok (.aload_n 3, 1) := by decide +kernel
theorem dL_law_1765 : decode cL_law 1765 = .ok (.invokestatic 213, 3) := by decide +kernel
theorem dL_law_1768 : decode cL_law 1768 = .ok (.istore 5, 2) := by decide +kernel
theorem dL_law_1770 : decode cL_law 1770 = .ok (.aload_n 2, 1) := by decide +kernel
theorem dL_law_1771 : decode cL_law 1771 = .ok (.aload_n 0, 1) := by decide +kernel
theorem dL_law_1772 : decode cL_law 1772 = .ok (.iload 4, 2) := by decide +kernel
theorem dL_law_1774 : decode cL_law 1774 = .ok (.iconst 1, 1) := by decide +kernel
theorem dL_law_1775 : decode cL_law 1775 = .ok (.iadd, 1) := by decide +kernel
theorem dL_law_1776 : decode cL_law 1776 = .ok (.iaload, 1) := by decide +kernel
theorem dL_law_1777 : decode cL_law 1777 = .ok (.invokevirtual 215, 3) := by decide +kernel
theorem dL_law_1780 : decode cL_law 1780 = .ok (.istore 6, 2) := by decide +kernel
theorem dL_law_1782 : decode cL_law 1782 = .ok (.aload_n 2, 1) := by decide +kernel
theorem dL_law_1783 : decode cL_law 1783 = .ok (.invokevirtual 144, 3) := by decide +kernel
theorem dL_law_1786 : decode cL_law 1786 = .ok (.iload 5, 2) := by decide +kernel
theorem dL_law_1788 : decode cL_law 1788 = .ok (.if_icmp .eq 5, 3) := by decide +kernel
theorem dL_law_1791 : decode cL_law 1791 = .ok (.iconst 0, 1) := by decide +kernel
theorem dL_law_1792 : decode cL_law 1792 = .ok (.ireturn, 1) := by decide +kernel
theorem dL_law_1793 : decode cL_law 1793 = .ok (.iload 5, 2) := by decide +kernel
theorem dL_law_1795 : decode cL_law 1795 = .ok (.ifCond .ne 22, 3) := by decide +kernel
theorem dL_law_1798 : decode cL_law 1798 = .ok (.aload_n 3, 1) := by decide +kernel
theorem dL_law_1799 : decode cL_law 1799 = .ok (.iconst 0, 1) := by decide +kernel
theorem dL_law_1800 : decode cL_law 1800 = .ok (.laload, 1) := by decide +kernel
theorem dL_law_1801 : decode cL_law 1801 = .ok (.iload 6, 2) := by decide +kernel
theorem dL_law_1803 : decode cL_law 1803 = .ok (.ifCond .eq 7, 3) := by decide +kernel
theorem dL_law_1806 : decode cL_law 1806 = .ok (.lconst 1, 1) := by decide +kernel
theorem dL_law_1807 : decode cL_law 1807 = .ok (.goto 4, 3) := by decide +kernel
theorem dL_law_1810 : decode cL_law 1810 = .ok (.lconst 0, 1) := by decide +kernel
theorem dL_law_1811 : decode cL_law 1811 = .ok (.lcmp, 1) := by decide +kernel
theorem dL_law_1812 : decode cL_law 1812 = .ok (.ifCond .eq 5, 3) := by decide +kernel
theorem dL_law_1815 : decode cL_law 1815 = .ok (.iconst 0, 1) := by decide +kernel
theorem dL_law_1816 : decode cL_law 1816 = .ok (.ireturn, 1) := by decide +kernel
theorem dL_law_1817 : decode cL_law 1817 = .ok (.goto 1089, 3) := by decide +kernel
theorem dL_law_1820 : decode cL_law 1820 = .ok (.aload_n 1, 1) := by decide +kernel
theorem dL_law_1821 : decode cL_law 1821 = .ok (.invokevirtual 216, 3) := by decide +kernel
theorem dL_law_1824 : decode cL_law 1824 = .ok (.aload_n 2, 1) := by decide +kernel
theorem dL_law_1825 : decode cL_law 1825 = .ok (.invokevirtual 219, 3) := by decide +kernel
theorem dL_law_1828 : decode cL_law 1828 = .ok (.if_icmp .eq 1078, 3) := by decide +kernel
theorem dL_law_1831 : decode cL_law 1831 = .ok (.iconst 0, 1) := by decide +kernel
theorem dL_law_1832 : decode cL_law 1832 = .ok (.ireturn, 1) := by decide +kernel
theorem dL_law_1833 : decode cL_law 1833 = .ok (.aload_n 1, 1) := by decide +kernel
theorem dL_law_1834 : decode cL_law 1834 = .ok (.invokevirtual 220, 3) := by decide +kernel
theorem dL_law_1837 : decode cL_law 1837 = .ok (.aload_n 2, 1) := by decide +kernel
theorem dL_law_1838 : decode cL_law 1838 = .ok (.invokevirtual 223, 3) := by decide +kernel
theorem dL_law_1841 : decode cL_law 1841 = .ok (.if_icmp .eq 1065, 3) := by decide +kernel
theorem dL_law_1844 : decode cL_law 1844 = .ok (.iconst 0, 1) := by decide +kernel
theorem dL_law_1845 : decode cL_law 1845 = .ok (.ireturn, 1) := by decide +kernel
theorem dL_law_1846 : decode cL_law 1846 = .ok (.aload_n 1, 1) := by decide +kernel
theorem dL_law_1847 : decode cL_law 1847 = .ok (.invokevirtual 224, 3) := by decide +kernel
theorem dL_law_1850 : decode cL_law 1850 = .ok (.aload_n 2, 1) := by decide +kernel
theorem dL_law_1851 : decode cL_law 1851 = .ok (.invokevirtual 227, 3) := by decide +kernel
theorem dL_law_1854 : decode cL_law 1854 = .ok (.if_icmp .eq 1052, 3) := by decide +kernel
theorem dL_law_1857 : decode cL_law 1857 = .ok (.iconst 0, 1) := by decide +kernel
theorem dL_law_1858 : decode cL_law 1858 = .ok (.ireturn, 1) := by decide +kernel
theorem dL_law_1859 : decode cL_law 1859 = .ok (.aload_n 1, 1) := by decide +kernel
theorem dL_law_1860 : decode cL_law 1860 = .ok (.aload_n 0, 1) := by decide +kernel
theorem dL_law_1861 : decode cL_law 1861 = .ok (.iload 4, 2) := by decide +kernel
theorem dL_law_1863 : decode cL_law 1863 = .ok (.iconst 1, 1) := by decide +kernel
theorem dL_law_1864 : decode cL_law 1864 = .ok (.iadd, 1) := by decide +kernel
theorem dL_law_1865 : decode cL_law 1865 = .ok (.iaload, 1) := by decide +kernel
theorem dL_law_1866 : decode cL_law 1866 = .ok (.aload_n 3, 1) := by decide +kernel
theorem dL_law_1867 : decode cL_law 1867 = .ok (.invokestatic 228, 3) := by decide +kernel
theorem dL_law_1870 : decode cL_law 1870 = .ok (.istore 5, 2) := by decide +kernel
theorem dL_law_1872 : decode cL_law 1872 = .ok (.aload_n 2, 1) := by decide +kernel
theorem dL_law_1873 : decode cL_law 1873 = .ok (.aload_n 0, 1) := by decide +kernel
theorem dL_law_1874 : decode cL_law 1874 = .ok (.iload 4, 2) := by decide +kernel
theorem dL_law_1876 : decode cL_law 1876 = .ok (.iconst 1, 1) := by decide +kernel
theorem dL_law_1877 : decode cL_law 1877 = .ok (.iadd, 1) := by decide +kernel
theorem dL_law_1878 : decode cL_law 1878 = .ok (.iaload, 1) := by decide +kernel
theorem dL_law_1879 : decode cL_law 1879 = .ok (.invokevirtual 230, 3) := by decide +kernel
theorem dL_law_1882 : decode cL_law 1882 = .ok (.istore 6, 2) := by decide +kernel
theorem dL_law_1884 : decode cL_law 1884 = .ok (.aload_n 2, 1) := by decide +kernel
theorem dL_law_1885 : decode cL_law 1885 = .ok (.invokevirtual 144, 3) := by decide +kernel
theorem dL_law_1888 : decode cL_law 1888 = .ok (.iload 5, 2) := by decide +kernel
theorem dL_law_1890 : decode cL_law 1890 = .ok (.if_icmp .eq 5, 3) := by decide +kernel
theorem dL_law_1893 : decode cL_law 1893 = .ok (.iconst 0, 1) := by decide +kernel
theorem dL_law_1894 : decode cL_law 1894 = .ok (.ireturn, 1) := by decide +kernel
theorem dL_law_1895 : decode cL_law 1895 = .ok (.iload 5, 2) := by decide +kernel
theorem dL_law_1897 : decode cL_law 1897 = .ok (.ifCond .ne 15, 3) := by decide +kernel
theorem dL_law_1900 : decode cL_law 1900 = .ok (.aload_n 3, 1) := by decide +kernel
theorem dL_law_1901 : decode cL_law 1901 = .ok (.iconst 0, 1) := by decide +kernel
theorem dL_law_1902 : decode cL_law 1902 = .ok (.laload, 1) := by decide +kernel
theorem dL_law_1903 : decode cL_law 1903 = .ok (.iload 6, 2) := by decide +kernel
theorem dL_law_1905 : decode cL_law 1905 = .ok (.i2l, 1) := by decide +kernel
theorem dL_law_1906 : decode cL_law 1906 = .ok (.lcmp, 1) := by decide +kernel
theorem dL_law_1907 : decode cL_law 1907 = .ok (.ifCond .eq 5, 3) := by decide +kernel
theorem dL_law_1910 : decode cL_law 1910 = .ok (.iconst 0, 1) := by decide +kernel
theorem dL_law_1911 : decode cL_law 1911 = .ok (.ireturn, 1) := by decide +kernel
theorem dL_law_1912 : decode cL_law 1912 = .ok (.goto 994, 3) := by decide +kernel
theorem dL_law_1915 : decode cL_law 1915 = .ok (.aload_n 1, 1) := by decide +kernel
theorem dL_law_1916 : decode cL_law 1916 = .ok (.aload_n 0, 1) := by decide +kernel
theorem dL_law_1917 : decode cL_law 1917 = .ok (.iload 4, 2) := by decide +kernel
theorem dL_law_1919 : decode cL_law 1919 = .ok (.iconst 1, 1) := by decide +kernel
theorem dL_law_1920 : decode cL_law 1920 = .ok (.iadd, 1) := by decide +kernel
theorem dL_law_1921 : decode cL_law 1921 = .ok (.iaload, 1) := by decide +kernel
theorem dL_law_1922 : decode cL_law 1922 = .ok (.aload_n 0, 1) := by decide +kernel
theorem dL_law_1923 : decode cL_law 1923 = .ok (.iload 4, 2) := by decide +kernel
