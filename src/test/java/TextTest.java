/** Promises 35 to 38: the text. */
public final class TextTest {
    private static final String[] EXAMPLES = {
        "a = { -9 .. 9 }; b = { 0 .. 30, # }; c = { -30 .. 3 }; d = a & b | c; e = (a | c) & (b | c); "
            + "f = a - (b | c); g = (a - b) & (a - c); h = a ^ b ^ c;",
        "a={1..10}-{5};b={#,-50..-40,7};c=a^b;d=c^a;e=(a|b)-(a&b);f={};g=f|{#};h=(((b&a)|d)-g);",
        "a={0,2,4,6,8};b={0,3,6,9};c=a&b;d=a|b;e={0..9};f=e-a;g=e-b;h=f&g;"};

    public static void main(String[] args) {
        typing();
        theOrderOfBytes();
        twoHundredBytes();
        clearing();
        examples();
        wrongExamples();
        Checks.end();
    }

    private static void typing() {
        SetCouncil council = new SetCouncil();
        Checks.due("textLength", council.textLength(), 0);
        Checks.due("type 0", council.type(0L), 0);
        Checks.due("type one byte", council.type(' '), 1);
        Checks.due("type a negative number, eight bytes", council.type(-1L), 9);
        Checks.due("type the lowest number, one byte", council.type(Long.MIN_VALUE), 10);
        Checks.due("type a number with zeros between", council.type(0x6100003D00007B00L), 13);
        Checks.due("type 256, one byte", council.type(256L), 14);
        Checks.due("textLength", council.textLength(), 14);
    }

    private static void theOrderOfBytes() {
        SetCouncil council = new SetCouncil();
        council.type(0x613D7B3132007D3BL);
        Checks.due("errorKind of a={12};", council.errorKind(), 0);
        Checks.due("run of a={12};", council.run(), 1);
        Checks.due("a", Snapshot.members(council, 0), "[12]");
        council.type(0x0000000062000000L);
        council.type(0x3D00000000006100L);
        council.type(';');
        Checks.due("run of that and b=a;", council.run(), 2);
        Checks.due("b", Snapshot.members(council, 1), "[12]");
    }

    private static void twoHundredBytes() {
        SetCouncil council = new SetCouncil();
        for (int i = 1; i <= 24; i++) {
            Checks.due("type eight bytes", council.type(0x2020202020202020L), 8 * i);
        }
        Checks.due("type up to 199", council.type(0x20202020202020L), 199);
        Checks.due("type two bytes beyond", Checks.outcome(() -> council.type(0x2020L)), "throws.IllegalStateException");
        Checks.due("textLength", council.textLength(), 199);
        Checks.due("type nothing", council.type(0L), 199);
        Checks.due("type the last byte", council.type(0x0A00000000000000L), 200);
        Checks.due("type nothing at 200", council.type(0L), 200);
        Checks.due("type one byte beyond", Checks.outcome(() -> council.type(1L)), "throws.IllegalStateException");
        Checks.due("textLength", council.textLength(), 200);
        Checks.due("run of blanks", council.run(), 0);
        Checks.illegalState("type beyond 200", TextTest::nearlyFull, other -> other.type(0x3B61000000000000L));
        Checks.illegalState("type eight beyond 200", TextTest::nearlyFull, other -> other.type(-1L));
    }

    /** A text of 199 bytes, whose last statement is one without its ";". */
    private static SetCouncil nearlyFull() {
        SetCouncil council = new SetCouncil();
        Councils.write(council, "a={7};" + " ".repeat(190) + "b=a");
        return council;
    }

    private static void clearing() {
        SetCouncil council = Councils.withText("a={7};");
        Checks.due("clearText", council.clearText(), 6);
        Checks.due("textLength behind clearText", council.textLength(), 0);
        Checks.due("clearText again", council.clearText(), 0);
        Checks.due("run of no text", council.run(), 0);
        Checks.due("a set of a cleared text", council.size(0), 0);
        Councils.write(council, "b={8};");
        Checks.due("run of the text behind it", council.run(), 1);
        Checks.due("a", Snapshot.members(council, 0), "[]");
        Checks.due("b", Snapshot.members(council, 1), "[8]");
    }

    private static void examples() {
        int[] lengths = {147, 86, 65};
        for (int which = 0; which < 3; which++) {
            SetCouncil council = Councils.furnished();
            Checks.due("example " + which, council.example(which), lengths[which]);
            Checks.due("textLength", council.textLength(), lengths[which]);
            Checks.due("errorKind", council.errorKind(), 0);
            Checks.due("errorPlace", council.errorPlace(), -1);
            Checks.due("run", council.run(), 8);
            SetCouncil typed = Councils.furnished();
            typed.clearText();
            Councils.write(typed, EXAMPLES[which]);
            Checks.due("the length if it is typed", typed.textLength(), lengths[which]);
            typed.run();
            for (int set = 0; set < 8; set++) {
                Checks.due("size of set " + set, council.size(set), typed.size(set));
                Checks.due("sum of set " + set, council.sum(set), typed.sum(set));
            }
        }
        signsOfExamples();
    }

    /** An error that stands behind a part of an example tells whether each sign is where it should be. */
    private static void signsOfExamples() {
        for (int which = 0; which < 3; which++) {
            SetCouncil council = new SetCouncil();
            council.example(which);
            council.type('!');
            Checks.due("errorPlace behind example " + which, council.errorPlace(), EXAMPLES[which].length());
        }
        SetCouncil council = new SetCouncil();
        council.example(2);
        council.run();
        Checks.due("a", Snapshot.members(council, 0), "[0 2 4 6 8]");
        Checks.due("b", Snapshot.members(council, 1), "[0 3 6 9]");
        Checks.due("c", Snapshot.members(council, 2), "[0 6]");
        Checks.due("d", Snapshot.members(council, 3), "[0 2 3 4 6 8 9]");
        Checks.due("e", Snapshot.members(council, 4), "[0 1 2 3 4 5 6 7 8 9]");
        Checks.due("f", Snapshot.members(council, 5), "[1 3 5 7 9]");
        Checks.due("g", Snapshot.members(council, 6), "[1 2 4 5 7 8]");
        Checks.due("h", Snapshot.members(council, 7), "[1 5 7]");
        council.example(1);
        council.run();
        Checks.due("a", Snapshot.members(council, 0), "[1 2 3 4 6 7 8 9 10]");
        Checks.due("b", Snapshot.members(council, 1), "[100 -50 -49 -48 -47 -46 -45 -44 -43 -42 -41 -40 7]");
        Checks.due("d is b", council.isSame(3, 1), true);
        Checks.due("e is c", council.isSame(4, 2), true);
        Checks.due("f", Snapshot.members(council, 5), "[]");
        Checks.due("g", Snapshot.members(council, 6), "[100]");
        Checks.due("h", Snapshot.members(council, 7), "[-50 -49 -48 -47 -46 -45 -44 -43 -42 -41 -40 7]");
        council.example(0);
        council.run();
        Checks.due("d is e", council.isSame(3, 4), true);
        Checks.due("f is g", council.isSame(5, 6), true);
        Checks.due("size of d", council.size(3), 40);
        Checks.due("f, as b and c have all of a", Snapshot.members(council, 5), "[]");
        Checks.due("size of h", council.size(7), 47);
        Checks.due("h has NOTHING", council.has(7, 100), true);
        Checks.due("h has what all three have", council.has(7, 0), true);
    }

    private static void wrongExamples() {
        int[] wrong = {-1, 3, Integer.MIN_VALUE, Integer.MAX_VALUE};
        for (int which : wrong) {
            Checks.illegalArgument("example " + which, Councils::furnished, council -> council.example(which));
        }
    }
}
