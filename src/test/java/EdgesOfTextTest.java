/** The boundary cases of promises 35 to 38: the text. */
public final class EdgesOfTextTest {
    private static final String[] EXAMPLES = {
        "a = { -9 .. 9 }; b = { 0 .. 30, # }; c = { -30 .. 3 }; d = a & b | c; e = (a | c) & (b | c); "
            + "f = a - (b | c); g = (a - b) & (a - c); h = a ^ b ^ c;",
        "a={1..10}-{5};b={#,-50..-40,7};c=a^b;d=c^a;e=(a|b)-(a&b);f={};g=f|{#};h=(((b&a)|d)-g);",
        "a={0,2,4,6,8};b={0,3,6,9};c=a&b;d=a|b;e={0..9};f=e-a;g=e-b;h=f&g;"};

    public static void main(String[] args) {
        Edges.run(EdgesOfTextTest.class);
    }

    static void promise35_zeroIsNoByte() {
        Checks.changesNothing("type of 0 behind no text", 0, SetCouncil::new, council -> council.type(0L));
        Checks.changesNothing("type of 0 behind a text", 12, Councils::edged, council -> council.type(0L));
        Checks.changesNothing("type of 0 behind 200 bytes", 200, () -> Councils.withBytes(200),
            council -> council.type(0L));
    }

    static void promise35_oneByteAtEachPlaceOfTheNumber() {
        for (int shift = 0; shift < 64; shift += 8) {
            SetCouncil council = new SetCouncil();
            Checks.due("type of 1 << " + shift, council.type(1L << shift), 1);
            Checks.due("type of 255 << " + shift, council.type(255L << shift), 2);
            Checks.due("textLength", council.textLength(), 2);
        }
    }

    static void promise35_eightBytes() {
        SetCouncil council = new SetCouncil();
        Checks.due("type of the number -1", council.type(-1L), 8);
        Checks.due("type of the greatest number", council.type(Long.MAX_VALUE), 16);
        Checks.due("type of the least number", council.type(Long.MIN_VALUE), 17);
    }

    /** Each byte from 1 to 255 comes to the text as it is: but for blanks it is told as an error at its place. */
    static void promise35_bytesFrom1To255() {
        for (int one = 1; one <= 255; one++) {
            SetCouncil council = new SetCouncil();
            Checks.due("type of " + one, council.type((long) one << 56 | 'a'), 2);
            boolean blank = one == ' ' || one == '\n';
            boolean name = one >= 'a' && one <= 'h';
            Checks.due("errorPlace behind " + one, council.errorPlace(), blank ? 2 : name ? 1 : 0);
        }
    }

    static void promise35_theHighestByteFirstWithoutZeros() {
        SetCouncil council = new SetCouncil();
        council.type(0x6100003D007B0000L);
        council.type(0x000035002D007D3BL);
        Checks.due("errorPlace of a={5-};", council.errorPlace(), 4);
        council.clearText();
        council.type(0x6100003D007B0000L);
        council.type(0x0000002D35007D3BL);
        Checks.due("run of a={-5};", council.run(), 1);
        Checks.due("a", Snapshot.members(council, 0), "[-5]");
    }

    static void promise35_upTo200Bytes() {
        for (int many = 1; many <= 8; many++) {
            SetCouncil council = Councils.withBytes(200 - many);
            long blanks = 0x2020202020202020L >>> 64 - 8 * many;
            Checks.due("type of " + many + " bytes", council.type(blanks), 200);
            Checks.due("run", council.run(), 1);
        }
    }

    static void promise35_notAbove200Bytes() {
        for (int many = 1; many <= 8; many++) {
            long bytes = 0x633D7B397D3B3B3BL >>> 64 - 8 * many;
            for (int room = 0; room < many; room++) {
                int before = 200 - room;
                Checks.illegalState("type of " + many + " bytes behind " + before, () -> Councils.withBytes(before),
                    council -> council.type(bytes));
            }
        }
    }

    static void promise35_eachByteNeedsRoom() {
        for (int shift = 0; shift < 64; shift += 8) {
            for (long one : new long[] {1L, 2L, 127L, 128L, 255L}) {
                long bytes = one << shift;
                Checks.illegalState("type of " + one + " << " + shift, () -> Councils.withBytes(200),
                    council -> council.type(bytes));
            }
        }
    }

    static void promise35_zerosNeedNoRoom() {
        for (int shift = 0; shift < 64; shift += 8) {
            SetCouncil council = Councils.withBytes(199);
            Checks.due("type of one byte, shift " + shift, council.type((long) '\n' << shift), 200);
            Checks.due("run", council.run(), 1);
        }
        SetCouncil council = Councils.withBytes(198);
        Checks.due("type of two bytes", council.type(0x2000000000000020L), 200);
    }

    static void promise35_roomThatIsLeftBehindARefusal() {
        SetCouncil council = Councils.withBytes(199);
        Checks.due("type of two bytes", Checks.outcome(() -> council.type(0x2020L)), "throws.IllegalStateException");
        Checks.due("type of one byte", council.type(' '), 200);
        Checks.due("type of one more", Checks.outcome(() -> council.type(' ')), "throws.IllegalStateException");
        Checks.due("textLength", council.textLength(), 200);
    }

    static void promise36_noText() {
        Checks.changesNothing("clearText", 0, SetCouncil::new, SetCouncil::clearText);
    }

    static void promise36_aFullText() {
        SetCouncil council = Councils.withBytes(200);
        Checks.due("clearText", council.clearText(), 200);
        Checks.due("textLength", council.textLength(), 0);
        Checks.due("run", council.run(), 0);
        Checks.due("clearText again", council.clearText(), 0);
        Councils.write(council, " ".repeat(200));
        Checks.due("200 bytes behind that", council.textLength(), 200);
    }

    static void promise37_fromNoneTo200() {
        SetCouncil council = new SetCouncil();
        Checks.due("textLength", council.textLength(), 0);
        for (int length = 1; length <= 200; length++) {
            council.type(' ');
            Checks.due("textLength", council.textLength(), length);
        }
    }

    static void promise38_whichFrom0To2() {
        Edges.range(SetCouncil::example, 0, 2);
    }

    static void promise38_theWholeTextIsReplaced() {
        for (int which = 0; which < 3; which++) {
            SetCouncil council = Councils.withBytes(200);
            Checks.due("example " + which, council.example(which), EXAMPLES[which].length());
            Checks.due("textLength", council.textLength(), EXAMPLES[which].length());
            Checks.due("run", council.run(), 8);
            SetCouncil behindNone = new SetCouncil();
            Checks.due("example behind no text", behindNone.example(which), EXAMPLES[which].length());
        }
    }

    /** The document's blanks are there too: up to 200 bytes just as many can be put behind it. */
    static void promise38_itsLength() {
        int[] lengths = {147, 86, 65};
        for (int which = 0; which < 3; which++) {
            SetCouncil council = new SetCouncil();
            Checks.due("example " + which, council.example(which), lengths[which]);
            for (int length = lengths[which] + 1; length <= 200; length++) {
                Checks.due("type", council.type(' '), length);
            }
            Checks.due("type of one more", Checks.outcome(() -> council.type(' ')), "throws.IllegalStateException");
        }
    }

    /** A text cannot be read back: what it does must tell whether it is the right one. */
    static void promise38_doesWhatTheTextDoesIfItIsTyped() {
        for (int which = 0; which < 3; which++) {
            SetCouncil council = Councils.furnished();
            council.example(which);
            SetCouncil typed = Councils.furnished();
            typed.clearText();
            Councils.write(typed, EXAMPLES[which]);
            Checks.due("textLength", typed.textLength(), council.textLength());
            Checks.due("run", council.run(), typed.run());
            for (int set = 0; set < 8; set++) {
                Checks.due("size of " + set, council.size(set), typed.size(set));
                Checks.due("sum of " + set, council.sum(set), typed.sum(set));
                Checks.due("NOTHING of " + set, council.has(set, 100), typed.has(set, 100));
            }
        }
    }
}
