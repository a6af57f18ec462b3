theorem zp_11 : True := trivial
