theorem zp_08 : True := trivial
