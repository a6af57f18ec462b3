theorem zp_07 : True := trivial
