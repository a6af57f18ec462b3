/** Promises 39 to 41: the text as a program, its error, and what it does. */
public final class ProgramTest {
    public static void main(String[] args) {
        withoutError();
        bytesThatCannotStand();
        textsThatEndTooEarly();
        numbersOutOfRange();
        secondNumbers();
        blanks();
        openBrackets();
        theFirstErrorIsTold();
        allBytes();
        asking();
        whatBracesHold();
        signsOfSums();
        theOrderOfSigns();
        statementsInTurn();
        greatPrograms();
        runWithAnError();
        behindAnError();
        Checks.end();
    }

    private static void error(String text, int kind, int place) {
        SetCouncil council = Councils.withText(text);
        Checks.due("errorKind of " + text, council.errorKind(), kind);
        Checks.due("errorPlace of " + text, council.errorPlace(), place);
        Object want = kind == 0 ? (Object) (int) text.chars().filter(sign -> sign == ';').count()
            : "throws.IllegalStateException";
        Checks.due("run of " + text, Checks.outcome(council::run), want);
    }

    /** Runs a text that makes the set a, ahead of which b has 1 and 2, c has 2 and 3, d has 3 and NOTHING. */
    private static void makes(String text, String want) {
        SetCouncil council = Councils.of(new int[] {9}, new int[] {1, 2}, new int[] {2, 3}, new int[] {3, 100});
        Councils.write(council, text);
        Checks.due("errorKind of " + text, council.errorKind(), 0);
        council.run();
        Checks.due("a behind " + text, Snapshot.members(council, 0), want);
    }

    private static void withoutError() {
        error("", 0, -1);
        error("   \n \n", 0, -1);
        error("a=b;", 0, -1);
        error("h=h;", 0, -1);
        error("a={};", 0, -1);
        error("a={#};", 0, -1);
        error("a={#,#,1,1,-50..50};", 0, -1);
        error("a={-50,50,-0,0,00000000000000000000000000050,-0050};", 0, -1);
        error("a={5..5,-50..-50,50..50,-1..1};", 0, -1);
        error("a=b|c-d^e&f;", 0, -1);
        error("a=((((((((b))))))));", 0, -1);
    }

    private static void bytesThatCannotStand() {
        error("i=a;", 1, 0);
        error("A=a;", 1, 0);
        error("`=a;", 1, 0);
        error("=a;", 1, 0);
        error(";", 1, 0);
        error("{1}", 1, 0);
        error("a;", 1, 1);
        error("ab;", 1, 1);
        error("a==b;", 1, 2);
        error("a=;", 1, 2);
        error("a=i;", 1, 2);
        error("a=1;", 1, 2);
        error("a=-b;", 1, 2);
        error("a=|b;", 1, 2);
        error("a=&b;", 1, 2);
        error("a=);", 1, 2);
        error("a=#;", 1, 2);
        error("a=b|;", 1, 4);
        error("a=b||c;", 1, 4);
        error("a=b-1;", 1, 4);
        error("a=b--c;", 1, 4);
        error("a=b^&c;", 1, 4);
        error("a=b&&c;", 1, 4);
        error("a=bc;", 1, 3);
        error("a=b{1};", 1, 3);
        error("a=b(c);", 1, 3);
        error("a={}{};", 1, 4);
        error("a=b=c;", 1, 3);
        error("a=b);", 1, 3);
        error("a=b};", 1, 3);
        error("a=(b;", 1, 4);
        error("a=(b));", 1, 5);
        error("a=();", 1, 3);
        error("a=(b|);", 1, 5);
        error("a=(b)c;", 1, 5);
        error("a=(b)(c);", 1, 5);
        error("a=b;;", 1, 4);
        error("a=b;=c;", 1, 4);
        error("a={,};", 1, 3);
        error("a={1,};", 1, 5);
        error("a={,1};", 1, 3);
        error("a={1,,2};", 1, 5);
        error("a={1;2};", 1, 4);
        error("a={1-2};", 1, 4);
        error("a={1#};", 1, 4);
        error("a={#1};", 1, 4);
        error("a={#..1};", 1, 4);
        error("a={1..#};", 1, 6);
        error("a={1..};", 1, 6);
        error("a={1...2};", 1, 6);
        error("a={1..2..3};", 1, 7);
        error("a={1.2};", 1, 5);
        error("a={1.};", 1, 5);
        error("a={.1};", 1, 3);
        error("a={..1};", 1, 3);
        error("a={b};", 1, 3);
        error("a={{1}};", 1, 3);
        error("a={(1)};", 1, 3);
        error("a={+1};", 1, 3);
        error("a={-};", 1, 4);
        error("a={--1};", 1, 4);
        error("a={1..--1};", 1, 7);
        error("a={-#};", 1, 4);
        error("a={-0-0};", 1, 5);
        error("a={0x1};", 1, 4);
        error("a={1:2};", 1, 4);
        error("a={1/2};", 1, 4);
    }

    private static void textsThatEndTooEarly() {
        String text = "a = ( {-1 .. 2 , #} | b ) ;";
        for (int length = 1; length < text.length(); length++) {
            error(text.substring(0, length), 1, length);
        }
        error(text, 0, -1);
        error("a", 1, 1);
        error("a=b;b", 1, 5);
        error("a=b  ", 1, 5);
        error("a={1.", 1, 5);
        error("a={-", 1, 4);
        error("a={1..-", 1, 7);
        error("a=b;\n c = d \n", 1, 13);
    }

    private static void numbersOutOfRange() {
        error("a={51};", 2, 3);
        error("a={-51};", 2, 3);
        error("a={100};", 2, 3);
        error("a={ -51};", 2, 4);
        error("a={1, 51};", 2, 6);
        error("a={51..52};", 2, 3);
        error("a={1..51};", 2, 6);
        error("a={1.. -51};", 2, 7);
        error("a={0051};", 2, 3);
        error("a={4294967297};", 2, 3);
        error("a={-4294967296};", 2, 3);
        error("a={18446744073709551617};", 2, 3);
        error("a={" + "9".repeat(190), 2, 3);
        error("a={" + "0".repeat(190) + "1};", 0, -1);
        error("a={51", 2, 3);
        error("a={510", 2, 3);
        error("a={-51", 2, 3);
        error("a={51x", 2, 3);
        error("a={5", 1, 4);
        error("a={5x", 1, 4);
    }

    private static void secondNumbers() {
        error("a={2..1};", 2, 6);
        error("a={2 .. 1};", 2, 8);
        error("a={-1..-2};", 2, 7);
        error("a={-1 .. -2};", 2, 9);
        error("a={1..-1};", 2, 6);
        error("a={50..49", 2, 7);
        error("a={5..1", 2, 6);
        error("a={5..10};", 0, -1);
        error("a={1..1};", 0, -1);
        error("a={-2..-1};", 0, -1);
        error("a={0..-0};", 0, -1);
        error("a={3,2..1};", 2, 8);
        error("a={3,1..2};", 0, -1);
    }

    private static void blanks() {
        error(" \na \n= \n( \nb \n| \n{ \n-1 \n.. \n2 \n, \n# \n} \n) \n; \n", 0, -1);
        error("a={- 1};", 1, 4);
        error("a={-\n1};", 1, 4);
        error("a={1 2};", 1, 5);
        error("a={1\n2};", 1, 5);
        error("a={1. .2};", 1, 5);
        error("a={1.\n.2};", 1, 5);
        error("a={1.. - 2};", 1, 8);
        error("a=\tb;", 1, 2);
        error("a=b;\r", 1, 4);
        error("a=b;\f", 1, 4);
        error("a=b;" + (char) 160, 1, 4);
    }

    private static void openBrackets() {
        error("a=(((((((((b)))))))));", 2, 10);
        error("a=( ( ( ( ( ( ( (  (", 2, 19);
        error("a=(((((((((", 2, 10);
        error("a=((((((((", 1, 10);
        error("a=((((((((b))))))))|((((((((c))))))));", 0, -1);
        error("a=((((((((b)))))))|(((((((c))))))));", 0, -1);
        error("a=((((((((b)))))))|((((((((c)))))))));", 2, 26);
        error("a=((((((((b(", 1, 11);
        error("a=((((((((b|(", 2, 12);
        error("a=((((((((b))))))));b=((((((((c))))))));", 0, -1);
        error("a=((((((((b)))))))));", 1, 19);
        error("a=(((((((b&(c|d)))))))^({1}));", 0, -1);
        error("a=((b))^({1}));", 1, 13);
    }

    private static void theFirstErrorIsTold() {
        error("a={51,-};", 2, 3);
        error("a={1,-};b={51};", 1, 6);
        error("x={51};", 1, 0);
        error("a={1..0;", 2, 6);
        error("a=b;c=d;e=?f;g={51};", 1, 10);
        error("a=" + "(".repeat(9) + "51", 2, 10);
    }

    /** Of all bytes, only these can stand at the front, behind a name, or behind a factor. */
    private static void allBytes() {
        for (int one = 1; one <= 255; one++) {
            String sign = String.valueOf((char) one);
            boolean blank = one == 32 || one == 10;
            if (!blank) {
                boolean name = one >= 'a' && one <= 'h';
                error(sign, 1, name ? 1 : 0);
                error("a=" + sign, 1, name || one == '{' || one == '(' ? 3 : 2);
                error("a=b" + sign, one == ';' ? 0 : 1, one == ';' ? -1 : "&|-^".indexOf(one) >= 0 ? 4 : 3);
                error("a={" + sign, 1, "#}-".indexOf(one) >= 0 || one >= '0' && one <= '9' ? 4 : 3);
            }
        }
    }

    private static void asking() {
        SetCouncil council = Councils.withText("a={1};b={51};");
        Checks.due("errorKind", council.errorKind(), 2);
        Checks.due("errorPlace", council.errorPlace(), 9);
        Checks.due("a when it was asked for an error", council.size(0), 0);
        council.clearText();
        Checks.due("errorKind of no text", council.errorKind(), 0);
        Checks.due("errorPlace of no text", council.errorPlace(), -1);
        Councils.write(council, "a={1};");
        Checks.due("errorPlace of a={1};", council.errorPlace(), -1);
        Checks.due("a when it was asked for no error", council.size(0), 0);
        Checks.due("run", council.run(), 1);
        Checks.due("a behind run", council.size(0), 1);
        Checks.due("textLength behind run", council.textLength(), 6);
    }

    private static void whatBracesHold() {
        makes("a={};", "[]");
        makes("a={#};", "[100]");
        makes("a={3,1,3,#,2,#};", "[100 1 2 3]");
        makes("a={-50,50,-0};", "[-50 0 50]");
        makes("a={-2..2};", "[-2 -1 0 1 2]");
        makes("a={7..7};", "[7]");
        makes("a={12..14,48..50,-50..-49};", "[-50 -49 12 13 14 48 49 50]");
        makes("a={1..3,2..4};", "[1 2 3 4]");
        makes("a={007};", "[7]");
        makes("a={1};a={2};", "[2]");
        makes("a={1}|{2};", "[1 2]");
        SetCouncil council = Councils.withText("a={-50..50,#};");
        council.run();
        Checks.due("size of all members", council.size(0), 102);
    }

    private static void signsOfSums() {
        makes("a=b;", "[1 2]");
        makes("a=b|c;", "[1 2 3]");
        makes("a=b&c;", "[2]");
        makes("a=b-c;", "[1]");
        makes("a=b^c;", "[1 3]");
        makes("a=c-d;", "[2]");
        makes("a=d-c;", "[100]");
        makes("a=c^d;", "[100 2]");
        makes("a=b-b;", "[]");
        makes("a=b^b;", "[]");
        makes("a=b&e;", "[]");
        makes("a=(b);", "[1 2]");
        makes("a={#,-50..-49,12..15,49,50}^{#,-49,13,14,50};", "[-50 12 15 49]");
        makes("a={#,-50..-49,12..15,49,50}&{#,-49,13,14,50};", "[100 -49 13 14 50]");
        makes("a={#,-50..-49,12..15,49,50}-{#,-49,13,14,50};", "[-50 12 15 49]");
        makes("a={#,-49,13,50}|{-50,14,49};", "[100 -50 -49 13 14 49 50]");
    }

    private static void theOrderOfSigns() {
        makes("a=b|c&d;", "[1 2 3]");
        makes("a=(b|c)&d;", "[3]");
        makes("a=b&c|d;", "[100 2 3]");
        makes("a=b&(c|d);", "[2]");
        makes("a=b-c|d;", "[100 1 3]");
        makes("a=b-(c|d);", "[1]");
        makes("a=b|c-d;", "[1 2]");
        makes("a=b|(c-d);", "[1 2]");
        makes("a=d|c-d;", "[2]");
        makes("a=d|(c-d);", "[100 2 3]");
        makes("a=b^c^d;", "[100 1]");
        makes("a=b-c-d;", "[1]");
        makes("a=b-(c-d);", "[1]");
        makes("a=d-(c-b);", "[100]");
        makes("a=d-c-b;", "[100]");
        makes("a=c-(d-c);", "[2 3]");
        makes("a=b-c^c;", "[1 2 3]");
        makes("a=b-(c^c);", "[1 2]");
        makes("a=b&c&d;", "[]");
        makes("a=b^c&d;", "[1 2 3]");
        makes("a=(b^c)&d;", "[3]");
        makes("a=b-c&d;", "[1 2]");
        makes("a=(b-c)&(d|{1});", "[1]");
        makes("a={1..9}-{2..8}&{4..6}|{50};", "[1 2 3 7 8 9 50]");
        makes("a=((b|(c&(d|{2})))-((c)));", "[1]");
        makes("a=(b)&(c)|(d)&(c);", "[2 3]");
        makes("a=b&(c|d)&(c-d);", "[2]");
    }

    private static void statementsInTurn() {
        makes("a=b;b=c;", "[1 2]");
        makes("b=c;a=b;", "[2 3]");
        makes("a=a|b;", "[1 2 9]");
        makes("a=a|b;a=a-{9};a=a^{2,3};", "[1 3]");
        makes("e=b;b=c;c=e;a=b-c;", "[3]");
        SetCouncil council = Councils.withText("a={1};b={2};c={3};d={4};e={5};f={6};g={7};h={8};");
        Checks.due("run of eight statements", council.run(), 8);
        for (int set = 0; set < 8; set++) {
            Checks.due("set " + set, Snapshot.members(council, set), "[" + (set + 1) + "]");
        }
        council.clear(4);
        Checks.due("run again", council.run(), 8);
        Checks.due("e behind that", Snapshot.members(council, 4), "[5]");
    }

    private static void greatPrograms() {
        SetCouncil council = new SetCouncil();
        council.add(0, 3);
        Councils.write(council, "b=a;".repeat(50));
        Checks.due("textLength", council.textLength(), 200);
        Checks.due("run of 50 statements", council.run(), 50);
        Checks.due("b", Snapshot.members(council, 1), "[3]");
        council.clearText();
        Councils.write(council, "c=" + "a^".repeat(98) + "a;");
        Checks.due("run of a long sum", council.run(), 1);
        Checks.due("c, as a stands there 99 times", Snapshot.members(council, 2), "[3]");
        council.clearText();
        Councils.write(council, "d={" + "-50..50,".repeat(24) + "#};");
        Checks.due("textLength", council.textLength(), 198);
        Checks.due("run of many items", council.run(), 1);
        Checks.due("size of d", council.size(3), 102);
    }

    private static void runWithAnError() {
        Checks.illegalState("run of a byte that cannot stand", () -> behindFurnished("c=a;?"), SetCouncil::run);
        Checks.illegalState("run of a text that ends early", () -> behindFurnished("a={9};c=b"), SetCouncil::run);
        Checks.illegalState("run of a number out of range", () -> behindFurnished("a={9};c={51};"), SetCouncil::run);
        Checks.illegalState("run of nine brackets", () -> behindFurnished("a={9};c=((((((((("), SetCouncil::run);
    }

    /** What was read ahead of an error must not come into the next reading. */
    private static void behindAnError() {
        String[] wrong = {"a={1}-{51};", "a={1}&{51};", "a={1}-({2}^{3}&?", "a=({1}&({2}-(b&?", "a={1", "a=b-", "a=b&",
            "a=" + "({9}&".repeat(8) + "(", "a=b;c=?", "a"};
        for (String text : wrong) {
            SetCouncil council = new SetCouncil();
            Councils.write(council, text);
            Checks.due("errorKind of " + text, council.errorKind() != 0, true);
            council.clearText();
            Councils.write(council, "a={5,6,7}&{5,6}-{6};b=({5,6}&({5,8}))|{7};");
            Checks.due("run behind " + text, council.run(), 2);
            Checks.due("a behind " + text, Snapshot.members(council, 0), "[5]");
            Checks.due("b behind " + text, Snapshot.members(council, 1), "[5 7]");
            Checks.due("c behind " + text, council.size(2), 0);
        }
    }

    private static SetCouncil behindFurnished(String text) {
        SetCouncil council = Councils.furnished();
        Councils.write(council, text);
        return council;
    }
}
