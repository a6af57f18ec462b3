theorem zp_05 : True := trivial
