theorem zp_06 : True := trivial
