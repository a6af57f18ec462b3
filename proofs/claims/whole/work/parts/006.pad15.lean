theorem zp_15 : True := trivial
