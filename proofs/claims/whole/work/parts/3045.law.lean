theorem dL_law_1925 : decode cL_law 1925 = .ok (.iconst 2, 1) := by decide +kernel
theorem dL_law_1926 : decode cL_law 1926 = .ok (.iadd, 1) := by decide +kernel
theorem dL_law_1927 : decode cL_law 1927 = .ok (.iaload, 1) := by decide +kernel
theorem dL_law_1928 : decode cL_law 1928 = .ok (.aload_n 3, 1) := by decide +kernel
theorem dL_law_1929 : decode cL_law 1929 = .ok (.invokestatic 231, 3) := by decide +kernel
theorem dL_law_1932 : decode cL_law 1932 = .ok (.istore 5, 2) := by decide +kernel
theorem dL_law_1934 : decode cL_law 1934 = .ok (.aload_n 2, 1) := by decide +kernel
theorem dL_law_1935 : decode cL_law 1935 = .ok (.aload_n 0, 1) := by decide +kernel
theorem dL_law_1936 : decode cL_law 1936 = .ok (.iload 4, 2) := by decide +kernel
theorem dL_law_1938 : decode cL_law 1938 = .ok (.iconst 1, 1) := by decide +kernel
theorem dL_law_1939 : decode cL_law 1939 = .ok (.iadd, 1) := by decide +kernel
theorem dL_law_1940 : decode cL_law 1940 = .ok (.iaload, 1) := by decide +kernel
theorem dL_law_1941 : decode cL_law 1941 = .ok (.aload_n 0, 1) := by decide +kernel
theorem dL_law_1942 : decode cL_law 1942 = .ok (.iload 4, 2) := by decide +kernel
theorem dL_law_1944 : decode cL_law 1944 = .ok (.iconst 2, 1) := by decide +kernel
theorem dL_law_1945 : decode cL_law 1945 = .ok (.iadd, 1) := by decide +kernel
theorem dL_law_1946 : decode cL_law 1946 = .ok (.iaload, 1) := by decide +kernel
theorem dL_law_1947 : decode cL_law 1947 = .ok (.invokevirtual 233, 3) := by decide +kernel
theorem dL_law_1950 : decode cL_law 1950 = .ok (.istore 6, 2) := by decide +kernel
theorem dL_law_1952 : decode cL_law 1952 = .ok (.aload_n 2, 1) := by decide +kernel
theorem dL_law_1953 : decode cL_law 1953 = .ok (.invokevirtual 144, 3) := by decide +kernel
theorem dL_law_1956 : decode cL_law 1956 = .ok (.iload 5, 2) := by decide +kernel
theorem dL_law_1958 : decode cL_law 1958 = .ok (.if_icmp .eq 5, 3) := by decide +kernel
theorem dL_law_1961 : decode cL_law 1961 = .ok (.iconst 0, 1) := by decide +kernel
theorem dL_law_1962 : decode cL_law 1962 = .ok (.ireturn, 1) := by decide +kernel
theorem dL_law_1963 : decode cL_law 1963 = .ok (.iload 5, 2) := by decide +kernel
theorem dL_law_1965 : decode cL_law 1965 = .ok (.ifCond .ne 15, 3) := by decide +kernel
theorem dL_law_1968 : decode cL_law 1968 = .ok (.aload_n 3, 1) := by decide +kernel
theorem dL_law_1969 : decode cL_law 1969 = .ok (.iconst 0, 1) := by decide +kernel
theorem dL_law_1970 : decode cL_law 1970 = .ok (.laload, 1) := by decide +kernel
theorem dL_law_1971 : decode cL_law 1971 = .ok (.iload 6, 2) := by decide +kernel
theorem dL_law_1973 : decode cL_law 1973 = .ok (.i2l, 1) := by decide +kernel
theorem dL_law_1974 : decode cL_law 1974 = .ok (.lcmp, 1) := by decide +kernel
theorem dL_law_1975 : decode cL_law 1975 = .ok (.ifCond .eq 5, 3) := by decide +kernel
theorem dL_law_1978 : decode cL_law 1978 = .ok (.iconst 0, 1) := by decide +kernel
theorem dL_law_1979 : decode cL_law 1979 = .ok (.ireturn, 1) := by decide +kernel
theorem dL_law_1980 : decode cL_law 1980 = .ok (.goto 926, 3) := by decide +kernel
theorem dL_law_1983 : decode cL_law 1983 = .ok (.aload_n 1, 1) := by decide +kernel
theorem dL_law_1984 : decode cL_law 1984 = .ok (.aload_n 0, 1) := by decide +kernel
theorem dL_law_1985 : decode cL_law 1985 = .ok (.iload 4, 2) := by decide +kernel
theorem dL_law_1987 : decode cL_law 1987 = .ok (.iconst 1, 1) := by decide +kernel
theorem dL_law_1988 : decode cL_law 1988 = .ok (.iadd, 1) := by decide +kernel
theorem dL_law_1989 : decode cL_law 1989 = .ok (.iaload, 1) := by decide +kernel
theorem dL_law_1990 : decode cL_law 1990 = .ok (.aload_n 3, 1) := by decide +kernel
theorem dL_law_1991 : decode cL_law 1991 = .ok (.invokestatic 234, 3) := by decide +kernel
theorem dL_law_1994 : decode cL_law 1994 = .ok (.istore 5, 2) := by decide +kernel
theorem dL_law_1996 : decode cL_law 1996 = .ok (.aload_n 2, 1) := by decide +kernel
theorem dL_law_1997 : decode cL_law 1997 = .ok (.aload_n 0, 1) := by decide +kernel
theorem dL_law_1998 : decode cL_law 1998 = .ok (.iload 4, 2) := by decide +kernel
theorem dL_law_2000 : decode cL_law 2000 = .ok (.iconst 1, 1) := by decide +kernel
theorem dL_law_2001 : decode cL_law 2001 = .ok (.iadd, 1) := by decide +kernel
theorem dL_law_2002 : decode cL_law 2002 = .ok (.iaload, 1) := by decide +kernel
theorem dL_law_2003 : decode cL_law 2003 = .ok (.invokevirtual 236, 3) := by decide +kernel
theorem dL_law_2006 : decode cL_law 2006 = .ok (.istore 6, 2) := by decide +kernel
theorem dL_law_2008 : decode cL_law 2008 = .ok (.aload_n 2, 1) := by decide +kernel
theorem dL_law_2009 : decode cL_law 2009 = .ok (.invokevirtual 144, 3) := by decide +kernel
theorem dL_law_2012 : decode cL_law 2012 = .ok (.iload 5, 2) := by decide +kernel
theorem dL_law_2014 : decode cL_law 2014 = .ok (.if_icmp .eq 5, 3) := by decide +kernel
theorem dL_law_2017 : decode cL_law 2017 = .ok (.iconst 0, 1) := by decide +kernel
theorem dL_law_2018 : decode cL_law 2018 = .ok (.ireturn, 1) := by decide +kernel
theorem dL_law_2019 : decode cL_law 2019 = .ok (.iload 5, 2) := by decide +kernel
theorem dL_law_2021 : decode cL_law 2021 = .ok (.ifCond .ne 15, 3) := by decide +kernel
theorem dL_law_2024 : decode cL_law 2024 = .ok (.aload_n 3, 1) := by decide +kernel
theorem dL_law_2025 : decode cL_law 2025 = .ok (.iconst 0, 1) := by decide +kernel
theorem dL_law_2026 : decode cL_law 2026 = .ok (.laload, 1) := by decide +kernel
theorem dL_law_2027 : decode cL_law 2027 = .ok (.iload 6, 2) := by decide +kernel
theorem dL_law_2029 : decode cL_law 2029 = .ok (.i2l, 1) := by decide +kernel
theorem dL_law_2030 : decode cL_law 2030 = .ok (.lcmp, 1) := by decide +kernel
theorem dL_law_2031 : decode cL_law 2031 = .ok (.ifCond .eq 5, 3) := by decide +kernel
theorem dL_law_2034 : decode cL_law 2034 = .ok (.iconst 0, 1) := by decide +kernel
theorem dL_law_2035 : decode cL_law 2035 = .ok (.ireturn, 1) := by decide +kernel
theorem dL_law_2036 : decode cL_law 2036 = .ok (.goto 870, 3) := by decide +kernel
theorem dL_law_2039 : decode cL_law 2039 = .ok (.aload_n 1, 1) := by decide +kernel
theorem dL_law_2040 : decode cL_law 2040 = .ok (.aload_n 0, 1) := by decide +kernel
theorem dL_law_2041 : decode cL_law 2041 = .ok (.iload 4, 2) := by decide +kernel
theorem dL_law_2043 : decode cL_law 2043 = .ok (.iconst 1, 1) := by decide +kernel
theorem dL_law_2044 : decode cL_law 2044 = .ok (.iadd, 1) := by decide +kernel
theorem dL_law_2045 : decode cL_law 2045 = .ok (.iaload, 1) := by decide +kernel
theorem dL_law_2046 : decode cL_law 2046 = .ok (.aload_n 3, 1) := by decide +kernel
theorem dL_law_2047 : decode cL_law 2047 = .ok (.invokestatic 237, 3) := by decide +kernel
theorem dL_law_2050 : decode cL_law 2050 = .ok (.istore 5, 2) := by decide +kernel
theorem dL_law_2052 : decode cL_law 2052 = .ok (.aload_n 2, 1) := by decide +kernel
theorem dL_law_2053 : decode cL_law 2053 = .ok (.aload_n 0, 1) := by decide +kernel
theorem dL_law_2054 : decode cL_law 2054 = .ok (.iload 4, 2) := by decide +kernel
theorem dL_law_2056 : decode cL_law 2056 = .ok (.iconst 1, 1) := by decide +kernel
theorem dL_law_2057 : decode cL_law 2057 = .ok (.iadd, 1) := by decide +kernel
theorem dL_law_2058 : decode cL_law 2058 = .ok (.iaload, 1) := by decide +kernel
theorem dL_law_2059 : decode cL_law 2059 = .ok (.invokevirtual 239, 3) := by decide +kernel
theorem dL_law_2062 : decode cL_law 2062 = .ok (.istore 6, 2) := by decide +kernel
theorem dL_law_2064 : decode cL_law 2064 = .ok (.aload_n 2, 1) := by decide +kernel
theorem dL_law_2065 : decode cL_law 2065 = .ok (.invokevirtual 144, 3) := by decide +kernel
theorem dL_law_2068 : decode cL_law 2068 = .ok (.iload 5, 2) := by decide +kernel
theorem dL_law_2070 : decode cL_law 2070 = .ok (.if_icmp .eq 5, 3) := by decide +kernel
theorem dL_law_2073 : decode cL_law 2073 = .ok (.iconst 0, 1) := by decide +kernel
theorem dL_law_2074 : decode cL_law 2074 = .ok (.ireturn, 1) := by decide +kernel
theorem dL_law_2075 : decode cL_law 2075 = .ok (.iload 5, 2) := by decide +kernel
theorem dL_law_2077 : decode cL_law 2077 = .ok (.ifCond .ne 22, 3) := by decide +kernel
theorem dL_law_2080 : decode cL_law 2080 = .ok (.aload_n 3, 1) := by decide +kernel
theorem dL_law_2081 : decode cL_law 2081 = .ok (.iconst 0, 1) := by decide +kernel
theorem dL_law_2082 : decode cL_law 2082 = .ok (.laload, 1) := by decide +kernel
theorem dL_law_2083 : decode cL_law 2083 = .ok (.iload 6, 2) := by decide +kernel
theorem dL_law_2085 : decode cL_law 2085 = .ok (.ifCond .eq 7, 3) := by decide +kernel
theorem dL_law_2088 : decode cL_law 2088 = .ok (.lconst 1, 1) := by decide +kernel
theorem dL_law_2089 : decode cL_law 2089 = .ok (.goto 4, 3) := by decide +kernel
theorem dL_law_2092 : decode cL_law 2092 = .ok (.lconst 0, 1) := by decide +kernel
theorem dL_law_2093 : decode cL_law 2093 = .ok (.lcmp, 1) := by decide +kernel
theorem dL_law_2094 : decode cL_law 2094 = .ok (.ifCond .eq 5, 3) := by decide +kernel
theorem dL_law_2097 : decode cL_law 2097 = .ok (.iconst 0, 1) := by decide +kernel
theorem dL_law_2098 : decode cL_law 2098 = .ok (.ireturn, 1) := by decide +kernel
theorem dL_law_2099 : decode cL_law 2099 = .ok (.goto 807, 3) := by decide +kernel
theorem dL_law_2102 : decode cL_law 2102 = .ok (.aload_n 1, 1) := by decide +kernel
theorem dL_law_2103 : decode cL_law 2103 = .ok (.invokevirtual 240, 3) := by decide +kernel
theorem dL_law_2106 : decode cL_law 2106 = .ok (.aload_n 2, 1) := by decide +kernel
theorem dL_law_2107 : decode cL_law 2107 = .ok (.invokevirtual 244, 3) := by decide +kernel
theorem dL_law_2110 : decode cL_law 2110 = .ok (.if_icmp .eq 796, 3) := by decide +kernel
theorem dL_law_2113 : decode cL_law 2113 = .ok (.iconst 0, 1) := by decide +kernel
theorem dL_law_2114 : decode cL_law 2114 = .ok (.ireturn, 1) := by decide +kernel
theorem dL_law_2115 : decode cL_law 2115 = .ok (.aload_n 1, 1) := by decide +kernel
theorem dL_law_2116 : decode cL_law 2116 = .ok (.invokevirtual 245, 3) := by decide +kernel
theorem dL_law_2119 : decode cL_law 2119 = .ok (.aload_n 2, 1) := by decide +kernel
theorem dL_law_2120 : decode cL_law 2120 = .ok (.invokevirtual 248, 3) := by decide +kernel
theorem dL_law_2123 : decode cL_law 2123 = .ok (.if_icmp .eq 783, 3) := by decide +kernel
theorem dL_law_2126 : decode cL_law 2126 = .ok (.iconst 0, 1) := by decide +kernel
theorem dL_law_2127 : decode cL_law 2127 = .ok (.ireturn, 1) := by decide +kernel
theorem dL_law_2128 : decode cL_law 2128 = .ok (.aload_n 1, 1) := by decide +kernel
theorem dL_law_2129 : decode cL_law 2129 = .ok (.aload_n 0, 1) := by decide +kernel
theorem dL_law_2130 : decode cL_law 2130 = .ok (.iload 4, 2) := by decide +kernel
theorem dL_law_2132 : decode cL_law 2132 = .ok (.iconst 1, 1) := by decide +kernel
theorem dL_law_2133 : decode cL_law 2133 = .ok (.iadd, 1) := by decide +kernel
theorem dL_law_2134 : decode cL_law 2134 = .ok (.iaload, 1) := by decide +kernel
theorem dL_law_2135 : decode cL_law 2135 = .ok (.aload_n 3, 1) := by decide +kernel
theorem dL_law_2136 : decode cL_law 2136 = .ok (.invokestatic 249, 3) := by decide +kernel
theorem dL_law_2139 : decode cL_law 2139 = .ok (.istore 5, 2) := by decide +kernel
theorem dL_law_2141 : decode cL_law 2141 = .ok (.aload_n 2, 1) := by decide +kernel
theorem dL_law_2142 : decode cL_law 2142 = .ok (.aload_n 0, 1) := by decide +kernel
theorem dL_law_2143 : decode cL_law 2143 = .ok (.iload 4, 2) := by decide +kernel
theorem dL_law_2145 : decode cL_law 2145 = .ok (.iconst 1, 1) := by decide +kernel
theorem dL_law_2146 : decode cL_law 2146 = .ok (.iadd, 1) := by decide +kernel
theorem dL_law_2147 : decode cL_law 2147 = .ok (.iaload, 1) := by decide +kernel
theorem dL_law_2148 : decode cL_law 2148 = .ok (.invokevirtual 251, 3) := by decide +kernel
theorem dL_law_2151 : decode cL_law 2151 = .ok (.istore 6, 2) := by decide +kernel
theorem dL_law_2153 : decode cL_law 2153 = .ok (.aload_n 2, 1) := by decide +kernel
theorem dL_law_2154 : decode cL_law 2154 = .ok (.invokevirtual 144, 3) := by decide +kernel
theorem dL_law_2157 : decode cL_law 2157 = .ok (.iload 5, 2) := by decide +kernel
theorem dL_law_2159 : decode cL_law 2159 = .ok (.if_icmp .eq 5, 3) := by decide +kernel
theorem dL_law_2162 : decode cL_law 2162 = .ok (.iconst 0, 1) := by decide +kernel
theorem dL_law_2163 : decode cL_law 2163 = .ok (.ireturn, 1) := by decide +kernel
theorem dL_law_2164 : decode cL_law 2164 = .ok (.iload 5, 2) := by decide +kernel
theorem dL_law_2166 : decode cL_law 2166 = .ok (.ifCond .ne 15, 3) := by decide +kernel
theorem dL_law_2169 : decode cL_law 2169 = .ok (.aload_n 3, 1) := by decide +kernel
theorem dL_law_2170 : decode cL_law 2170 = .ok (.iconst 0, 1) := by decide +kernel
theorem dL_law_2171 : decode cL_law 2171 = .ok (.laload, 1) := by decide +kernel
theorem dL_law_2172 : decode cL_law 2172 = .ok (.iload 6, 2) := by decide +kernel
theorem dL_law_2174 : decode cL_law 2174 = .ok (.i2l, 1) := by decide +kernel
theorem dL_law_2175 : decode cL_law 2175 = .ok (.lcmp, 1) := by decide +kernel
theorem dL_law_2176 : decode cL_law 2176 = .ok (.ifCond .eq 5, 3) := by decide +kernel
theorem dL_law_2179 : decode cL_law 2179 = .ok (.iconst 0, 1) := by decide +kernel
theorem dL_law_2180 : decode cL_law 2180 = .ok (.ireturn, 1) := by decide +kernel
theorem dL_law_2181 : decode cL_law 2181 = .ok (.goto 725, 3) := by decide +kernel
theorem dL_law_2184 : decode cL_law 2184 = .ok (.aload_n 1, 1) := by decide +kernel
theorem dL_law_2185 : decode cL_law 2185 = .ok (.aload_n 0, 1) := by decide +kernel
theorem dL_law_2186 : decode cL_law 2186 = .ok (.iload 4, 2) := by decide +kernel
theorem dL_law_2188 : decode cL_law 2188 = .ok (.iconst 1, 1) := by decide +kernel
theorem dL_law_2189 : decode cL_law 2189 = .ok (.iadd, 1) := by decide +kernel
theorem dL_law_2190 : decode cL_law 2190 = .ok (.iaload, 1) := by decide +kernel
theorem dL_law_2191 : decode cL_law 2191 = .ok (.i2l, 1) := by decide +kernel
theorem dL_law_2192 : decode cL_law 2192 = .ok (.bipush 32, 2) := by decide +kernel
theorem dL_law_2194 : decode cL_law 2194 = .ok (.lshl, 1) := by decide +kernel
theorem dL_law_2195 : decode cL_law 2195 = .ok (.aload_n 0, 1) := by decide +kernel
theorem dL_law_2196 : decode cL_law 2196 = .ok (.iload 4, 2) := by decide +kernel
theorem dL_law_2198 : decode cL_law 2198 = .ok (.iconst 2, 1) := by decide +kernel
theorem dL_law_2199 : decode cL_law 2199 = .ok (.iadd, 1) := by decide +kernel
theorem dL_law_2200 : decode cL_law 2200 = .ok (.iaload, 1) := by decide +kernel
theorem dL_law_2201 : decode cL_law 2201 = .ok (.i2l, 1) := by decide +kernel
theorem dL_law_2202 : decode cL_law 2202 = .ok (.ldc2_w 252, 3) := by decide +kernel
theorem dL_law_2205 : decode cL_law 2205 = .ok (.land, 1) := by decide +kernel
theorem dL_law_2206 : decode cL_law 2206 = .ok (.lor, 1) := by decide +kernel
theorem dL_law_2207 : decode cL_law 2207 = .ok (.aload_n 3, 1) := by decide +kernel
theorem dL_law_2208 : decode cL_law 2208 = .ok (.invokestatic 254, 3) := by decide +kernel
theorem dL_law_2211 : decode cL_law 2211 = .ok (.istore 5, 2) := by decide +kernel
theorem dL_law_2213 : decode cL_law 2213 = .ok (.aload_n 2, 1) := by decide +kernel
theorem dL_law_2214 : decode cL_law 2214 = .ok (.aload_n 0, 1) := by decide +kernel
theorem dL_law_2215 : decode cL_law 2215 = .ok (.iload 4, 2) := by decide +kernel
theorem dL_law_2217 : decode cL_law 2217 = .ok (.iconst 1, 1) := by decide +kernel
theorem dL_law_2218 : decode cL_law 2218 = .ok (.iadd, 1) := by decide +kernel
theorem dL_law_2219 : decode cL_law 2219 = .ok (.iaload, 1) := by decide +kernel
theorem dL_law_2220 : decode cL_law 2220 = .ok (.i2l, 1) := by decide +kernel
theorem dL_law_2221 : decode cL_law 2221 = .ok (.bipush 32, 2) := by decide +kernel
theorem dL_law_2223 : decode cL_law 2223 = .ok (.lshl, 1) := by decide +kernel
theorem dL_law_2224 : decode cL_law 2224 = .ok (.aload_n 0, 1) := by decide +kernel
theorem dL_law_2225 : decode cL_law 2225 = .ok (.iload 4, 2) := by decide +kernel
theorem dL_law_2227 : decode cL_law 2227 = .ok (.iconst 2, 1) := by decide +kernel
theorem dL_law_2228 : decode cL_law 2228 = .ok (.iadd, 1) := by decide +kernel
theorem dL_law_2229 : decode cL_law 2229 = .ok (.iaload, 1) := by decide +kernel
theorem dL_law_2230 : decode cL_law 2230 = .ok (.i2l, 1) := by decide +kernel
theorem dL_law_2231 : decode cL_law 2231 = .ok (.ldc2_w 252, 3) := by decide +kernel
theorem dL_law_2234 : decode cL_law 2234 = .ok (.land, 1) := by decide +kernel
theorem dL_law_2235 : decode cL_law 2235 = .ok (.lor, 1) := by decide +kernel
theorem dL_law_2236 : decode cL_law 2236 = .ok (.invokevirtual 257, 3) := by decide +kernel
theorem dL_law_2239 : decode cL_law 2239 = .ok (.istore 6, 2) := by decide +kernel
theorem dL_law_2241 : decode cL_law 2241 = .ok (.aload_n 2, 1) := by decide +kernel
theorem dL_law_2242 : decode cL_law 2242 = .ok (.invokevirtual 144, 3) := by decide +kernel
theorem dL_law_2245 : decode cL_law 2245 = .ok (.iload 5, 2) := by decide +kernel
theorem dL_law_2247 : decode cL_law 2247 = .ok (.if_icmp .eq 5, 3) := by decide +kernel
theorem dL_law_2250 : decode cL_law 2250 = .ok (.iconst 0, 1) := by decide +kernel
theorem dL_law_2251 : decode cL_law 2251 = .ok (.ireturn, 1) := by decide +kernel
theorem dL_law_2252 : decode cL_law 2252 = .ok (.iload 5, 2) := by decide +kernel
theorem dL_law_2254 : decode cL_law 2254 = .ok (.ifCond .ne 15, 3) := by decide +kernel
theorem dL_law_2257 : decode cL_law 2257 = .ok (.aload_n 3, 1) := by decide +kernel
theorem dL_law_2258 : decode cL_law 2258 = .ok (.iconst 0, 1) := by decide +kernel
theorem dL_law_2259 : decode cL_law 2259 = .ok (.laload, 1) := by decide +kernel
theorem dL_law_2260 : decode cL_law 2260 = .ok (.iload 6, 2) := by decide +kernel
theorem dL_law_2262 : decode cL_law 2262 = .ok (.i2l, 1) := by decide +kernel
theorem dL_law_2263 : decode cL_law 2263 = .ok (.lcmp, 1) := by decide +kernel
theorem dL_law_2264 : decode cL_law 2264 = .ok (.ifCond .eq 5, 3) := by decide +kernel
theorem dL_law_2267 : decode cL_law 2267 = .ok (.iconst 0, 1) := by decide +kernel
theorem dL_law_2268 : decode cL_law 2268 = .ok (.ireturn, 1) := by decide +kernel
theorem dL_law_2269 : decode cL_law 2269 = .ok (.goto 637, 3) := by decide +kernel
theorem dL_law_2272 : decode cL_law 2272 = .ok (.aload_n 1, 1) := by decide +kernel
theorem dL_law_2273 : decode cL_law 2273 = .ok (.invokevirtual 258, 3) := by decide +kernel
