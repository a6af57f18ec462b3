theorem zp_04 : True := trivial
