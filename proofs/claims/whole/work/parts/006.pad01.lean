theorem zp_01 : True := trivial
