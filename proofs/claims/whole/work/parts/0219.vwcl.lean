abbrev vwCl : List vw_C := [(RX0, TX0, 3), (RX1, TX1, 3), (RX2, TX2, 2), (RX3, TX3, 15), (RX4, TX4, 2), (RX5, TX5, 1), (RX6, TX6, 4), (RX7, TX7, 8), (RX8, TX8, 19)]
