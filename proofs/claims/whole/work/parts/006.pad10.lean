theorem zp_10 : True := trivial
