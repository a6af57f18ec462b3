/** Councils that tests begin with. */
final class Councils {
    private Councils() {
    }

    /** A council whose set i has the members of the i-th argument. */
    static SetCouncil of(int[]... members) {
        SetCouncil council = new SetCouncil();
        for (int set = 0; set < members.length; set++) {
            for (int member : members[set]) {
                council.add(set, member);
            }
        }
        return council;
    }

    static int[] set(int... members) {
        return members;
    }

    /** A council with something in its sets, its family and its text. */
    static SetCouncil furnished() {
        SetCouncil council = of(set(100, -50, 3), set(3, 4), set(), set(50), set(100), set(1, 2, 3));
        council.keep(0);
        council.keep(1);
        council.keep(3);
        write(council, "h={7};a=h|b;");
        return council;
    }

    /** As furnished, but the last set has 7 and 50, and is the third one of four in the family. */
    static SetCouncil edged() {
        SetCouncil council = furnished();
        council.add(7, 50);
        council.add(7, 7);
        council.keep(7);
        return council;
    }

    /** As furnished, but the set 0 has all 102 members. */
    static SetCouncil fullSet() {
        SetCouncil council = furnished();
        council.fill(0, -50, 1, 101);
        council.add(0, 100);
        return council;
    }

    /** As furnished, but the family has 7 sets: {-20} to {-14}, none of them one of the eight sets. */
    static SetCouncil fullFamily() {
        SetCouncil council = furnished();
        council.dropAll();
        for (int number = -20; number < -13; number++) {
            council.clear(7);
            council.add(7, number);
            council.keep(7);
        }
        council.clear(7);
        return council;
    }

    /** Puts a text, of bytes as characters, behind the text of a council, eight bytes a call. */
    static void write(SetCouncil council, String bytes) {
        for (int begin = 0; begin < bytes.length(); begin += 8) {
            long number = 0;
            for (int i = begin; i < begin + 8 && i < bytes.length(); i++) {
                number = number << 8 | bytes.charAt(i);
            }
            council.type(number);
        }
    }

    /** A council whose text has this many bytes: a statement, and blanks. */
    static SetCouncil withBytes(int many) {
        SetCouncil council = furnished();
        council.clearText();
        write(council, "b={8};" + " ".repeat(many - 6));
        return council;
    }

    static SetCouncil withText(String bytes) {
        SetCouncil council = new SetCouncil();
        write(council, bytes);
        return council;
    }
}
