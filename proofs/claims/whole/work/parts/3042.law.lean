theorem dL_law_887 : decode cL_law 887 = .ok (.iconst 0, 1) := by decide +kernel
theorem dL_law_888 : decode cL_law 888 = .ok (.ireturn, 1) := by decide +kernel
theorem dL_law_889 : decode cL_law 889 = .ok (.iload 5, 2) := by decide +kernel
theorem dL_law_891 : decode cL_law 891 = .ok (.ifCond .ne 15, 3) := by decide +kernel
theorem dL_law_894 : decode cL_law 894 = .ok (.aload_n 3, 1) := by decide +kernel
theorem dL_law_895 : decode cL_law 895 = .ok (.iconst 0, 1) := by decide +kernel
theorem dL_law_896 : decode cL_law 896 = .ok (.laload, 1) := by decide +kernel
theorem dL_law_897 : decode cL_law 897 = .ok (.iload 6, 2) := by decide +kernel
theorem dL_law_899 : decode cL_law 899 = .ok (.i2l, 1) := by decide +kernel
theorem dL_law_900 : decode cL_law 900 = .ok (.lcmp, 1) := by decide +kernel
theorem dL_law_901 : decode cL_law 901 = .ok (.ifCond .eq 5, 3) := by decide +kernel
theorem dL_law_904 : decode cL_law 904 = .ok (.iconst 0, 1) := by decide +kernel
theorem dL_law_905 : decode cL_law 905 = .ok (.ireturn, 1) := by decide +kernel
theorem dL_law_906 : decode cL_law 906 = .ok (.goto 2000, 3) := by decide +kernel
theorem dL_law_909 : decode cL_law 909 = .ok (.aload_n 1, 1) := by decide +kernel
theorem dL_law_910 : decode cL_law 910 = .ok (.aload_n 0, 1) := by decide +kernel
theorem dL_law_911 : decode cL_law 911 = .ok (.iload 4, 2) := by decide +kernel
theorem dL_law_913 : decode cL_law 913 = .ok (.iconst 1, 1) := by decide +kernel
theorem dL_law_914 : decode cL_law 914 = .ok (.iadd, 1) := by decide +kernel
theorem dL_law_915 : decode cL_law 915 = .ok (.iaload, 1) := by decide +kernel
theorem dL_law_916 : decode cL_law 916 = .ok (.aload_n 0, 1) := by decide +kernel
theorem dL_law_917 : decode cL_law 917 = .ok (.iload 4, 2) := by decide +kernel
theorem dL_law_919 : decode cL_law 919 = .ok (.iconst 2, 1) := by decide +kernel
theorem dL_law_920 : decode cL_law 920 = .ok (.iadd, 1) := by decide +kernel
theorem dL_law_921 : decode cL_law 921 = .ok (.iaload, 1) := by decide +kernel
theorem dL_law_922 : decode cL_law 922 = .ok (.aload_n 3, 1) := by decide +kernel
theorem dL_law_923 : decode cL_law 923 = .ok (.invokestatic 176, 3) := by decide +kernel
theorem dL_law_926 : decode cL_law 926 = .ok (.istore 5, 2) := by decide +kernel
theorem dL_law_928 : decode cL_law 928 = .ok (.aload_n 2, 1) := by decide +kernel
theorem dL_law_929 : decode cL_law 929 = .ok (.aload_n 0, 1) := by decide +kernel
theorem dL_law_930 : decode cL_law 930 = .ok (.iload 4, 2) := by decide +kernel
theorem dL_law_932 : decode cL_law 932 = .ok (.iconst 1, 1) := by decide +kernel
theorem dL_law_933 : decode cL_law 933 = .ok (.iadd, 1) := by decide +kernel
theorem dL_law_934 : decode cL_law 934 = .ok (.iaload, 1) := by decide +kernel
theorem dL_law_935 : decode cL_law 935 = .ok (.aload_n 0, 1) := by decide +kernel
theorem dL_law_936 : decode cL_law 936 = .ok (.iload 4, 2) := by decide +kernel
theorem dL_law_938 : decode cL_law 938 = .ok (.iconst 2, 1) := by decide +kernel
theorem dL_law_939 : decode cL_law 939 = .ok (.iadd, 1) := by decide +kernel
theorem dL_law_940 : decode cL_law 940 = .ok (.iaload, 1) := by decide +kernel
theorem dL_law_941 : decode cL_law 941 = .ok (.invokevirtual 178, 3) := by decide +kernel
theorem dL_law_944 : decode cL_law 944 = .ok (.istore 6, 2) := by decide +kernel
theorem dL_law_946 : decode cL_law 946 = .ok (.aload_n 2, 1) := by decide +kernel
theorem dL_law_947 : decode cL_law 947 = .ok (.invokevirtual 144, 3) := by decide +kernel
theorem dL_law_950 : decode cL_law 950 = .ok (.iload 5, 2) := by decide +kernel
theorem dL_law_952 : decode cL_law 952 = .ok (.if_icmp .eq 5, 3) := by decide +kernel
theorem dL_law_955 : decode cL_law 955 = .ok (.iconst 0, 1) := by decide +kernel
theorem dL_law_956 : decode cL_law 956 = .ok (.ireturn, 1) := by decide +kernel
theorem dL_law_957 : decode cL_law 957 = .ok (.iload 5, 2) := by decide +kernel
theorem dL_law_959 : decode cL_law 959 = .ok (.ifCond .ne 22, 3) := by decide +kernel
theorem dL_law_962 : decode cL_law 962 = .ok (.aload_n 3, 1) := by decide +kernel
theorem dL_law_963 : decode cL_law 963 = .ok (.iconst 0, 1) := by decide +kernel
theorem dL_law_964 : decode cL_law 964 = .ok (.laload, 1) := by decide +kernel
theorem dL_law_965 : decode cL_law 965 = .ok (.iload 6, 2) := by decide +kernel
theorem dL_law_967 : decode cL_law 967 = .ok (.ifCond .eq 7, 3) := by decide +kernel
theorem dL_law_970 : decode cL_law 970 = .ok (.lconst 1, 1) := by decide +kernel
theorem dL_law_971 : decode cL_law 971 = .ok (.goto 4, 3) := by decide +kernel
theorem dL_law_974 : decode cL_law 974 = .ok (.lconst 0, 1) := by decide +kernel
theorem dL_law_975 : decode cL_law 975 = .ok (.lcmp, 1) := by decide +kernel
theorem dL_law_976 : decode cL_law 976 = .ok (.ifCond .eq 5, 3) := by decide +kernel
theorem dL_law_979 : decode cL_law 979 = .ok (.iconst 0, 1) := by decide +kernel
theorem dL_law_980 : decode cL_law 980 = .ok (.ireturn, 1) := by decide +kernel
theorem dL_law_981 : decode cL_law 981 = .ok (.goto 1925, 3) := by decide +kernel
theorem dL_law_984 : decode cL_law 984 = .ok (.aload_n 1, 1) := by decide +kernel
theorem dL_law_985 : decode cL_law 985 = .ok (.aload_n 0, 1) := by decide +kernel
theorem dL_law_986 : decode cL_law 986 = .ok (.iload 4, 2) := by decide +kernel
theorem dL_law_988 : decode cL_law 988 = .ok (.iconst 1, 1) := by decide +kernel
theorem dL_law_989 : decode cL_law 989 = .ok (.iadd, 1) := by decide +kernel
theorem dL_law_990 : decode cL_law 990 = .ok (.iaload, 1) := by decide +kernel
theorem dL_law_991 : decode cL_law 991 = .ok (.aload_n 0, 1) := by decide +kernel
theorem dL_law_992 : decode cL_law 992 = .ok (.iload 4, 2) := by decide +kernel
theorem dL_law_994 : decode cL_law 994 = .ok (.iconst 2, 1) := by decide +kernel
theorem dL_law_995 : decode cL_law 995 = .ok (.iadd, 1) := by decide +kernel
theorem dL_law_996 : decode cL_law 996 = .ok (.iaload, 1) := by decide +kernel
theorem dL_law_997 : decode cL_law 997 = .ok (.aload_n 3, 1) := by decide +kernel
theorem dL_law_998 : decode cL_law 998 = .ok (.invokestatic 179, 3) := by decide +kernel
theorem dL_law_1001 : decode cL_law 1001 = .ok (.istore 5, 2) := by decide +kernel
theorem dL_law_1003 : decode cL_law 1003 = .ok (.aload_n 2, 1) := by decide +kernel
theorem dL_law_1004 : decode cL_law 1004 = .ok (.aload_n 0, 1) := by decide +kernel
theorem dL_law_1005 : decode cL_law 1005 = .ok (.iload 4, 2) := by decide +kernel
theorem dL_law_1007 : decode cL_law 1007 = .ok (.iconst 1, 1) := by decide +kernel
theorem dL_law_1008 : decode cL_law 1008 = .ok (.iadd, 1) := by decide +kernel
theorem dL_law_1009 : decode cL_law 1009 = .ok (.iaload, 1) := by decide +kernel
theorem dL_law_1010 : decode cL_law 1010 = .ok (.aload_n 0, 1) := by decide +kernel
theorem dL_law_1011 : decode cL_law 1011 = .ok (.iload 4, 2) := by decide +kernel
theorem dL_law_1013 : decode cL_law 1013 = .ok (.iconst 2, 1) := by decide +kernel
theorem dL_law_1014 : decode cL_law 1014 = .ok (.iadd, 1) := by decide +kernel
theorem dL_law_1015 : decode cL_law 1015 = .ok (.iaload, 1) := by decide +kernel
theorem dL_law_1016 : decode cL_law 1016 = .ok (.invokevirtual 181, 3) := by decide +kernel
theorem dL_law_1019 : decode cL_law 1019 = .ok (.istore 6, 2) := by decide +kernel
theorem dL_law_1021 : decode cL_law 1021 = .ok (.aload_n 2, 1) := by decide +kernel
theorem dL_law_1022 : decode cL_law 1022 = .ok (.invokevirtual 144, 3) := by decide +kernel
theorem dL_law_1025 : decode cL_law 1025 = .ok (.iload 5, 2) := by decide +kernel
theorem dL_law_1027 : decode cL_law 1027 = .ok (.if_icmp .eq 5, 3) := by decide +kernel
theorem dL_law_1030 : decode cL_law 1030 = .ok (.iconst 0, 1) := by decide +kernel
theorem dL_law_1031 : decode cL_law 1031 = .ok (.ireturn, 1) := by decide +kernel
theorem dL_law_1032 : decode cL_law 1032 = .ok (.iload 5, 2) := by decide +kernel
theorem dL_law_1034 : decode cL_law 1034 = .ok (.ifCond .ne 22, 3) := by decide +kernel
theorem dL_law_1037 : decode cL_law 1037 = .ok (.aload_n 3, 1) := by decide +kernel
theorem dL_law_1038 : decode cL_law 1038 = .ok (.iconst 0, 1) := by decide +kernel
theorem dL_law_1039 : decode cL_law 1039 = .ok (.laload, 1) := by decide +kernel
theorem dL_law_1040 : decode cL_law 1040 = .ok (.iload 6, 2) := by decide +kernel
theorem dL_law_1042 : decode cL_law 1042 = .ok (.ifCond .eq 7, 3) := by decide +kernel
theorem dL_law_1045 : decode cL_law 1045 = .ok (.lconst 1, 1) := by decide +kernel
theorem dL_law_1046 : decode cL_law 1046 = .ok (.goto 4, 3) := by decide +kernel
theorem dL_law_1049 : decode cL_law 1049 = .ok (.lconst 0, 1) := by decide +kernel
theorem dL_law_1050 : decode cL_law 1050 = .ok (.lcmp, 1) := by decide +kernel
theorem dL_law_1051 : decode cL_law 1051 = .ok (.ifCond .eq 5, 3) := by decide +kernel
theorem dL_law_1054 : decode cL_law 1054 = .ok (.iconst 0, 1) := by decide +kernel
theorem dL_law_1055 : decode cL_law 1055 = .ok (.ireturn, 1) := by decide +kernel
theorem dL_law_1056 : decode cL_law 1056 = .ok (.goto 1850, 3) := by decide +kernel
theorem dL_law_1059 : decode cL_law 1059 = .ok (.aload_n 1, 1) := by decide +kernel
theorem dL_law_1060 : decode cL_law 1060 = .ok (.aload_n 0, 1) := by decide +kernel
theorem dL_law_1061 : decode cL_law 1061 = .ok (.iload 4, 2) := by decide +kernel
theorem dL_law_1063 : decode cL_law 1063 = .ok (.iconst 1, 1) := by decide +kernel
theorem dL_law_1064 : decode cL_law 1064 = .ok (.iadd, 1) := by decide +kernel
theorem dL_law_1065 : decode cL_law 1065 = .ok (.iaload, 1) := by decide +kernel
theorem dL_law_1066 : decode cL_law 1066 = .ok (.aload_n 0, 1) := by decide +kernel
theorem dL_law_1067 : decode cL_law 1067 = .ok (.iload 4, 2) := by decide +kernel
theorem dL_law_1069 : decode cL_law 1069 = .ok (.iconst 2, 1) := by decide +kernel
theorem dL_law_1070 : decode cL_law 1070 = .ok (.iadd, 1) := by decide +kernel
theorem dL_law_1071 : decode cL_law 1071 = .ok (.iaload, 1) := by decide +kernel
theorem dL_law_1072 : decode cL_law 1072 = .ok (.aload_n 3, 1) := by decide +kernel
theorem dL_law_1073 : decode cL_law 1073 = .ok (.invokestatic 182, 3) := by decide +kernel
theorem dL_law_1076 : decode cL_law 1076 = .ok (.istore 5, 2) := by decide +kernel
theorem dL_law_1078 : decode cL_law 1078 = .ok (.aload_n 2, 1) := by decide +kernel
theorem dL_law_1079 : decode cL_law 1079 = .ok (.aload_n 0, 1) := by decide +kernel
theorem dL_law_1080 : decode cL_law 1080 = .ok (.iload 4, 2) := by decide +kernel
theorem dL_law_1082 : decode cL_law 1082 = .ok (.iconst 1, 1) := by decide +kernel
theorem dL_law_1083 : decode cL_law 1083 = .ok (.iadd, 1) := by decide +kernel
theorem dL_law_1084 : decode cL_law 1084 = .ok (.iaload, 1) := by decide +kernel
theorem dL_law_1085 : decode cL_law 1085 = .ok (.aload_n 0, 1) := by decide +kernel
theorem dL_law_1086 : decode cL_law 1086 = .ok (.iload 4, 2) := by decide +kernel
theorem dL_law_1088 : decode cL_law 1088 = .ok (.iconst 2, 1) := by decide +kernel
theorem dL_law_1089 : decode cL_law 1089 = .ok (.iadd, 1) := by decide +kernel
theorem dL_law_1090 : decode cL_law 1090 = .ok (.iaload, 1) := by decide +kernel
theorem dL_law_1091 : decode cL_law 1091 = .ok (.invokevirtual 184, 3) := by decide +kernel
theorem dL_law_1094 : decode cL_law 1094 = .ok (.istore 6, 2) := by decide +kernel
theorem dL_law_1096 : decode cL_law 1096 = .ok (.aload_n 2, 1) := by decide +kernel
theorem dL_law_1097 : decode cL_law 1097 = .ok (.invokevirtual 144, 3) := by decide +kernel
theorem dL_law_1100 : decode cL_law 1100 = .ok (.iload 5, 2) := by decide +kernel
theorem dL_law_1102 : decode cL_law 1102 = .ok (.if_icmp .eq 5, 3) := by decide +kernel
theorem dL_law_1105 : decode cL_law 1105 = .ok (.iconst 0, 1) := by decide +kernel
theorem dL_law_1106 : decode cL_law 1106 = .ok (.ireturn, 1) := by decide +kernel
theorem dL_law_1107 : decode cL_law 1107 = .ok (.iload 5, 2) := by decide +kernel
theorem dL_law_1109 : decode cL_law 1109 = .ok (.ifCond .ne 22, 3) := by decide +kernel
theorem dL_law_1112 : decode cL_law 1112 = .ok (.aload_n 3, 1) := by decide +kernel
theorem dL_law_1113 : decode cL_law 1113 = .ok (.iconst 0, 1) := by decide +kernel
theorem dL_law_1114 : decode cL_law 1114 = .ok (.laload, 1) := by decide +kernel
theorem dL_law_1115 : decode cL_law 1115 = .ok (.iload 6, 2) := by decide +kernel
theorem dL_law_1117 : decode cL_law 1117 = .ok (.ifCond .eq 7, 3) := by decide +kernel
theorem dL_law_1120 : decode cL_law 1120 = .ok (.lconst 1, 1) := by decide +kernel
theorem dL_law_1121 : decode cL_law 1121 = .ok (.goto 4, 3) := by decide +kernel
theorem dL_law_1124 : decode cL_law 1124 = .ok (.lconst 0, 1) := by decide +kernel
theorem dL_law_1125 : decode cL_law 1125 = .ok (.lcmp, 1) := by decide +kernel
theorem dL_law_1126 : decode cL_law 1126 = .ok (.ifCond .eq 5, 3) := by decide +kernel
theorem dL_law_1129 : decode cL_law 1129 = .ok (.iconst 0, 1) := by decide +kernel
theorem dL_law_1130 : decode cL_law 1130 = .ok (.ireturn, 1) := by decide +kernel
theorem dL_law_1131 : decode cL_law 1131 = .ok (.goto 1775, 3) := by decide +kernel
theorem dL_law_1134 : decode cL_law 1134 = .ok (.aload_n 1, 1) := by decide +kernel
theorem dL_law_1135 : decode cL_law 1135 = .ok (.aload_n 0, 1) := by decide +kernel
theorem dL_law_1136 : decode cL_law 1136 = .ok (.iload 4, 2) := by decide +kernel
theorem dL_law_1138 : decode cL_law 1138 = .ok (.iconst 1, 1) := by decide +kernel
theorem dL_law_1139 : decode cL_law 1139 = .ok (.iadd, 1) := by decide +kernel
theorem dL_law_1140 : decode cL_law 1140 = .ok (.iaload, 1) := by decide +kernel
theorem dL_law_1141 : decode cL_law 1141 = .ok (.aload_n 0, 1) := by decide +kernel
theorem dL_law_1142 : decode cL_law 1142 = .ok (.iload 4, 2) := by decide +kernel
theorem dL_law_1144 : decode cL_law 1144 = .ok (.iconst 2, 1) := by decide +kernel
theorem dL_law_1145 : decode cL_law 1145 = .ok (.iadd, 1) := by decide +kernel
theorem dL_law_1146 : decode cL_law 1146 = .ok (.iaload, 1) := by decide +kernel
theorem dL_law_1147 : decode cL_law 1147 = .ok (.aload_n 3, 1) := by decide +kernel
theorem dL_law_1148 : decode cL_law 1148 = .ok (.invokestatic 185, 3) := by decide +kernel
theorem dL_law_1151 : decode cL_law 1151 = .ok (.istore 5, 2) := by decide +kernel
theorem dL_law_1153 : decode cL_law 1153 = .ok (.aload_n 2, 1) := by decide +kernel
theorem dL_law_1154 : decode cL_law 1154 = .ok (.aload_n 0, 1) := by decide +kernel
theorem dL_law_1155 : decode cL_law 1155 = .ok (.iload 4, 2) := by decide +kernel
theorem dL_law_1157 : decode cL_law 1157 = .ok (.iconst 1, 1) := by decide +kernel
theorem dL_law_1158 : decode cL_law 1158 = .ok (.iadd, 1) := by decide +kernel
theorem dL_law_1159 : decode cL_law 1159 = .ok (.iaload, 1) := by decide +kernel
theorem dL_law_1160 : decode cL_law 1160 = .ok (.aload_n 0, 1) := by decide +kernel
theorem dL_law_1161 : decode cL_law 1161 = .ok (.iload 4, 2) := by decide +kernel
theorem dL_law_1163 : decode cL_law 1163 = .ok (.iconst 2, 1) := by decide +kernel
theorem dL_law_1164 : decode cL_law 1164 = .ok (.iadd, 1) := by decide +kernel
theorem dL_law_1165 : decode cL_law 1165 = .ok (.iaload, 1) := by decide +kernel
theorem dL_law_1166 : decode cL_law 1166 = .ok (.invokevirtual 187, 3) := by decide +kernel
theorem dL_law_1169 : decode cL_law 1169 = .ok (.istore 6, 2) := by decide +kernel
theorem dL_law_1171 : decode cL_law 1171 = .ok (.aload_n 2, 1) := by decide +kernel
theorem dL_law_1172 : decode cL_law 1172 = .ok (.invokevirtual 144, 3) := by decide +kernel
theorem dL_law_1175 : decode cL_law 1175 = .ok (.iload 5, 2) := by decide +kernel
theorem dL_law_1177 : decode cL_law 1177 = .ok (.if_icmp .eq 5, 3) := by decide +kernel
theorem dL_law_1180 : decode cL_law 1180 = .ok (.iconst 0, 1) := by decide +kernel
theorem dL_law_1181 : decode cL_law 1181 = .ok (.ireturn, 1) := by decide +kernel
theorem dL_law_1182 : decode cL_law 1182 = .ok (.iload 5, 2) := by decide +kernel
theorem dL_law_1184 : decode cL_law 1184 = .ok (.ifCond .ne 15, 3) := by decide +kernel
theorem dL_law_1187 : decode cL_law 1187 = .ok (.aload_n 3, 1) := by decide +kernel
theorem dL_law_1188 : decode cL_law 1188 = .ok (.iconst 0, 1) := by decide +kernel
theorem dL_law_1189 : decode cL_law 1189 = .ok (.laload, 1) := by decide +kernel
theorem dL_law_1190 : decode cL_law 1190 = .ok (.iload 6, 2) := by decide +kernel
theorem dL_law_1192 : decode cL_law 1192 = .ok (.i2l, 1) := by decide +kernel
theorem dL_law_1193 : decode cL_law 1193 = .ok (.lcmp, 1) := by decide +kernel
theorem dL_law_1194 : decode cL_law 1194 = .ok (.ifCond .eq 5, 3) := by decide +kernel
theorem dL_law_1197 : decode cL_law 1197 = .ok (.iconst 0, 1) := by decide +kernel
theorem dL_law_1198 : decode cL_law 1198 = .ok (.ireturn, 1) := by decide +kernel
theorem dL_law_1199 : decode cL_law 1199 = .ok (.goto 1707, 3) := by decide +kernel
theorem dL_law_1202 : decode cL_law 1202 = .ok (.aload_n 1, 1) := by decide +kernel
theorem dL_law_1203 : decode cL_law 1203 = .ok (.aload_n 0, 1) := by decide +kernel
theorem dL_law_1204 : decode cL_law 1204 = .ok (.iload 4, 2) := by decide +kernel
theorem dL_law_1206 : decode cL_law 1206 = .ok (.iconst 1, 1) := by decide +kernel
theorem dL_law_1207 : decode cL_law 1207 = .ok (.iadd, 1) := by decide +kernel
theorem dL_law_1208 : decode cL_law 1208 = .ok (.iaload, 1) := by decide +kernel
theorem dL_law_1209 : decode cL_law 1209 = .ok (.aload_n 0, 1) := by decide +kernel
theorem dL_law_1210 : decode cL_law 1210 = .ok (.iload 4, 2) := by decide +kernel
theorem dL_law_1212 : decode cL_law 1212 = .ok (.iconst 2, 1) := by decide +kernel
theorem dL_law_1213 : decode cL_law 1213 = .ok (.iadd, 1) := by decide +kernel
theorem dL_law_1214 : decode cL_law 1214 = .ok (.iaload, 1) := by decide +kernel
theorem dL_law_1215 : decode cL_law 1215 = .ok (.aload_n 0, 1) := by decide +kernel
theorem dL_law_1216 : decode cL_law 1216 = .ok (.iload 4, 2) := by decide +kernel
theorem dL_law_1218 : decode cL_law 1218 = .ok (.iconst 3, 1) := by decide +kernel
theorem dL_law_1219 : decode cL_law 1219 = .ok (.iadd, 1) := by decide +kernel
theorem dL_law_1220 : decode cL_law 1220 = .ok (.iaload, 1) := by decide +kernel
theorem dL_law_1221 : decode cL_law 1221 = .ok (.aload_n 3, 1) := by decide +kernel
