theorem zp_03 : True := trivial
