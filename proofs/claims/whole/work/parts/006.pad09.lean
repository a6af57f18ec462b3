theorem zp_09 : True := trivial
