theorem zp_16 : True := trivial
