theorem zp_13 : True := trivial
