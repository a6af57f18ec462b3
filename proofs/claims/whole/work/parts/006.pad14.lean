theorem zp_14 : True := trivial
