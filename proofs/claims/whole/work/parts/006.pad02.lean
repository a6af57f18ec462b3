theorem zp_02 : True := trivial
