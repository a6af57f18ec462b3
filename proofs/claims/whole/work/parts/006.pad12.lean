theorem zp_12 : True := trivial
