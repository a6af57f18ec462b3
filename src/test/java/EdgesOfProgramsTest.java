/** The boundary cases of promises 39 to 41: the text as a program, its error, and what it does. */
public final class EdgesOfProgramsTest {
    public static void main(String[] args) {
        Edges.run(EdgesOfProgramsTest.class);
    }

    private static String shown(String text) {
        return text.length() < 40 ? text : text.substring(0, 37) + "...";
    }

    private static void kind(String text, int kind) {
        Checks.changesNothing("errorKind of " + shown(text), kind, () -> Councils.withText(text),
            SetCouncil::errorKind);
    }

    private static void place(String text, int place) {
        Checks.changesNothing("errorPlace of " + shown(text), place, () -> Councils.withText(text),
            SetCouncil::errorPlace);
    }

    private static void error(String text, int kind, int place) {
        kind(text, kind);
        place(text, place);
        if (kind != 0) {
            Checks.illegalState("run of " + shown(text), () -> behindFurnished(text), SetCouncil::run);
        }
    }

    private static SetCouncil behindFurnished(String text) {
        SetCouncil council = Councils.furnished();
        council.clearText();
        Councils.write(council, text);
        return council;
    }

    private static void right(String text) {
        error(text, 0, -1);
    }

    /** Runs a text on furnished sets; the set a is due to be this behind it. */
    private static void makes(String text, String want) {
        SetCouncil council = behindFurnished(text);
        Checks.due("run of " + shown(text), council.run(), (int) text.chars().filter(sign -> sign == ';').count());
        Checks.due("a behind " + shown(text), Snapshot.members(council, 0), want);
    }

    static void promise39_zeroWithoutAnError() {
        kind("a={1};", 0);
        kind("", 0);
        kind(" \n", 0);
    }

    static void promise39_oneForAByteThatCannotStandThere() {
        kind("a={1};?", 1);
        kind("?", 1);
    }

    static void promise39_oneForATextThatEndsTooEarly() {
        kind("a", 1);
        kind("a={1}", 1);
    }

    static void promise39_twoForANumberOutOfRange() {
        kind("a={51};", 2);
        kind("a={2..1};", 2);
    }

    static void promise39_twoForTheNinthBracket() {
        kind("a=(((((((((", 2);
    }

    static void promise40_noneWithoutAnError() {
        place("a={1};", -1);
        place("", -1);
        place(" \n", -1);
    }

    static void promise40_theFirstByteAndTheLastOne() {
        place("?a=b;", 0);
        place("a=b;?", 4);
        place("a=b;" + " ".repeat(195) + "?", 199);
        place("{" + " ".repeat(199), 0);
    }

    static void promise40_theLengthOfATextThatEndsTooEarly() {
        String text = " a = ( { -1 .. 2 , # , -50..-49 } | b & c ) ; \n";
        int end = text.indexOf(';') + 1;
        for (int length = 2; length < end; length++) {
            error(text.substring(0, length), 1, length);
        }
        for (int length = end; length <= text.length(); length++) {
            right(text.substring(0, length));
        }
        error("a" + " ".repeat(199), 1, 200);
        error("a={5" + " ".repeat(196), 1, 200);
        error("a={" + "0".repeat(197), 1, 200);
        error("a={1" + ",1".repeat(97) + ".", 1, 199);
        error("a={1" + ",1".repeat(97) + "..", 1, 200);
        error("a={1" + ",1".repeat(97) + ",-", 1, 200);
    }

    static void promise39_namesFromAToH() {
        right("a=h;h=a;");
        for (String no : new String[] {"`", "i", "A", "H", "j", "z"}) {
            error(no + "=a;", 1, 0);
            error("a=" + no + ";", 1, 2);
            error("a=b|" + no + ";", 1, 4);
        }
    }

    static void promise39_digitsFrom0To9() {
        right("a={0,9};");
        for (String no : new String[] {"/", ":", "O", "+"}) {
            error("a={" + no + "};", 1, 3);
            error("a={1" + no + "};", 1, 4);
            error("a={-" + no + "};", 1, 4);
            error("a={1.." + no + "};", 1, 6);
        }
    }

    static void promise39_numbersFromMinus50To50() {
        right("a={-50,50};");
        error("a={51};", 2, 3);
        error("a={-51};", 2, 3);
        error("a={99};", 2, 3);
        error("a={100};", 2, 3);
        error("a={-100};", 2, 3);
    }

    static void promise39_secondNumbersFromTheFirstOneTo50() {
        right("a={-50..50,50..50,-50..-50,0..0,-1..1};");
        error("a={0..51};", 2, 6);
        error("a={-50..-51};", 2, 8);
        error("a={0..-51};", 2, 6);
        error("a={50..49};", 2, 7);
        error("a={0..-1};", 2, 6);
        error("a={-49..-50};", 2, 8);
        error("a={1..0};", 2, 6);
    }

    static void promise39_theFirstNumberOfTwoOutOfRange() {
        error("a={51..50};", 2, 3);
        error("a={51..52};", 2, 3);
        error("a={-51..0};", 2, 3);
        error("a={-51..-52};", 2, 3);
    }

    /** Cut to 32 or 64 bits, these would be numbers from -50 to 50. */
    static void promise39_greatNumbersDoNotComeBack() {
        String[] great = {"256", "65536", "4294967296", "4294967297", "18446744073709551616", "18446744073709551617",
            "340282366920938463463374607431768211456", "2147483648", "9223372036854775808", "1" + "0".repeat(150)};
        for (String number : great) {
            error("a={" + number + "};", 2, 3);
            error("a={-" + number + "};", 2, 3);
            error("a={0.." + number + "};", 2, 6);
            error("a={-50..-" + number + "};", 2, 8);
        }
    }

    static void promise39_zerosAheadOfANumber() {
        right("a={" + "0".repeat(190) + "50};");
        right("a={-" + "0".repeat(190) + "50};");
        error("a={" + "0".repeat(190) + "51};", 2, 3);
        right("a={-0,00,-00..0};");
    }

    static void promise39_placeOfANumberIsItsFirstByte() {
        error("a={ \n 51 };", 2, 6);
        error("a={ \n -51 };", 2, 6);
        error("a={1 .. 51};", 2, 8);
        error("a={1 .. -51};", 2, 8);
        error("a={5 .. -5};", 2, 8);
        error("a={1,#,51};", 2, 7);
    }

    static void promise39_bracketsWithinEightOthers() {
        right("a=" + "(".repeat(8) + "b" + ")".repeat(8) + ";");
        error("a=" + "(".repeat(9) + "b" + ")".repeat(9) + ";", 2, 10);
        error("a=" + "(".repeat(10), 2, 10);
        error("a=" + "( ".repeat(9), 2, 18);
        right("a=" + "(".repeat(8) + "b" + ")".repeat(8) + "|" + "(".repeat(8) + "c" + ")".repeat(8) + ";");
        right("a=" + "(".repeat(8) + "b)|(c" + ")".repeat(8) + ";");
        error("a=" + "(".repeat(8) + "b)|((c", 2, 14);
        right(("a=" + "(".repeat(8) + "b" + ")".repeat(8) + ";").repeat(3));
    }

    /** There a "(" could not stand at all: it is a byte like any other one. */
    static void promise39_aNinthBracketThatCannotStand() {
        error("a=" + "(".repeat(8) + "b(", 1, 11);
        error("a=" + "(".repeat(8) + "{}(", 1, 12);
        error("a=" + "(".repeat(8) + "{(", 1, 11);
        error("a=" + "(".repeat(8) + "(b)", 2, 10);
        error("a=" + "(".repeat(8) + "b&(", 2, 12);
    }

    static void promise39_bracketsThatAreNotOpen() {
        error("a=b);", 1, 3);
        error("a=(b));", 1, 5);
        error("a=(b;", 1, 4);
        error("a=((b);", 1, 6);
        error("a=" + "(".repeat(8) + "b" + ")".repeat(7) + ";", 1, 18);
        error("a=" + "(".repeat(8) + "b" + ")".repeat(9) + ";", 1, 19);
        error("a=();", 1, 3);
    }

    static void promise39_blanksBetweenSigns() {
        for (String blank : new String[] {" ", "\n", " \n ", "\n\n"}) {
            right(String.join(blank, "", "a", "=", "(", "{", "-1", "..", "2", ",", "#", "}", "|", "b", ")", ";", "c",
                "=", "d", ";", ""));
        }
        right(" ".repeat(200));
        right("\n".repeat(200));
    }

    static void promise39_noBlankWithinANumber() {
        for (String blank : new String[] {" ", "\n"}) {
            error("a={-" + blank + "1};", 1, 4);
            error("a={1" + blank + "2};", 1, 5);
            error("a={1..-" + blank + "1};", 1, 7);
            error("a={1..1" + blank + "2};", 1, 8);
        }
    }

    static void promise39_noBlankWithinTwoDots() {
        error("a={1. .2};", 1, 5);
        error("a={1.\n.2};", 1, 5);
        right("a={1 .. 2};");
        right("a={1\n..\n2};");
    }

    static void promise39_oneDotOrThree() {
        error("a={1.2};", 1, 5);
        error("a={1...2};", 1, 6);
        error("a={1..2..3};", 1, 7);
        error("a={#..2};", 1, 4);
        error("a={1..#};", 1, 6);
    }

    static void promise39_noOtherBlank() {
        for (int one : new int[] {9, 11, 13, 31, 33, 127, 160}) {
            error((char) one + "a=b;", 1, 0);
            error("a=b;" + (char) one, 1, 4);
            error("a=" + (char) one + "b;", 1, 2);
        }
    }

    static void promise39_emptyBraces() {
        right("a={};");
        right("a={ \n};");
        error("a={,};", 1, 3);
        error("a={1,};", 1, 5);
        error("a={,1};", 1, 3);
        error("a={1,,2};", 1, 5);
        error("a={}};", 1, 4);
    }

    static void promise39_emptyStatementsAndSums() {
        error(";", 1, 0);
        error("a;", 1, 1);
        error("a=;", 1, 2);
        error("a=b;;", 1, 4);
        error("=b;", 1, 0);
        error("a=b|;", 1, 4);
        error("a=&b;", 1, 2);
        error("a=-b;", 1, 2);
        error("a=(b&);", 1, 5);
    }

    static void promise39_theFirstErrorIsTold() {
        error("a={51};?", 2, 3);
        error("a=?;b={51};", 1, 2);
        error("a={51?", 2, 3);
        error("a={5?", 1, 4);
        error("a={2..1?", 2, 6);
        error("a={2..1", 2, 6);
        error("a={51", 2, 3);
        error("a={51.?", 2, 3);
        error("a=" + "(".repeat(9) + "?", 2, 10);
        error("a={60..55};", 2, 3);
    }

    static void promise41_noStatements() {
        Checks.changesNothing("run of no text", 0, () -> behindFurnished(""), SetCouncil::run);
        Checks.changesNothing("run of blanks", 0, () -> behindFurnished(" \n "), SetCouncil::run);
        Checks.changesNothing("run of 200 blanks", 0, () -> behindFurnished(" ".repeat(200)), SetCouncil::run);
    }

    static void promise41_asManyStatementsAsThereIsRoomFor() {
        SetCouncil council = behindFurnished("c=b;".repeat(50));
        Checks.due("run", council.run(), 50);
        Checks.due("c", Snapshot.members(council, 2), "[3 4]");
        Checks.due("textLength behind run", council.textLength(), 200);
        Checks.due("run again", council.run(), 50);
    }

    static void promise41_anErrorAtTheEndRefusesAll() {
        for (String wrong : new String[] {"?", "a", "a={51};", "a={2..1};", "a=(((((((((", "c={5}", "c={5};;"}) {
            Checks.illegalState("run of " + wrong, () -> behindFurnished("a={9};b={8};" + wrong), SetCouncil::run);
        }
        Checks.illegalState("run of 200 bytes", () -> behindFurnished("c=a;".repeat(49) + "c=a?"), SetCouncil::run);
    }

    static void promise41_setsFromAToH() {
        SetCouncil council = new SetCouncil();
        Councils.write(council, "a={1};b={2};c={3};d={4};e={5};f={6};g={7};h={8};");
        Checks.due("run", council.run(), 8);
        for (int set = 0; set < 8; set++) {
            Checks.due("set " + set, Snapshot.members(council, set), "[" + (set + 1) + "]");
        }
        council.clearText();
        Councils.write(council, "a=h;h=a;");
        Checks.due("run", council.run(), 2);
        Checks.due("a, which was made h", Snapshot.members(council, 0), "[8]");
        Checks.due("h, which was made the new a", Snapshot.members(council, 7), "[8]");
    }

    static void promise41_bracesFromEmptyToFull() {
        makes("a={};", "[]");
        makes("a={#};", "[100]");
        makes("a={-50};", "[-50]");
        makes("a={50};", "[50]");
        makes("a={-0};", "[0]");
        makes("a={7..7};", "[7]");
        makes("a={-50..-50,50..50};", "[-50 50]");
        makes("a={49..50,-50..-49};", "[-50 -49 49 50]");
        makes("a={3,3,#,#,2..4};", "[100 2 3 4]");
        SetCouncil council = behindFurnished("a={-50..50,#};");
        council.run();
        Checks.due("size of all members", council.size(0), 102);
        council = behindFurnished("a={-50..50};");
        council.run();
        Checks.due("size of all numbers", council.size(0), 101);
        Checks.due("NOTHING", council.has(0, 100), false);
    }

    static void promise41_sumsOfEmptySets() {
        makes("a=c|g;", "[]");
        makes("a=c&b;", "[]");
        makes("a=b&c;", "[]");
        makes("a=c-b;", "[]");
        makes("a=b-c;", "[3 4]");
        makes("a=c^b;", "[3 4]");
        makes("a=b|{};", "[3 4]");
    }

    static void promise41_aSetWithItself() {
        makes("a=a;", "[100 -50 3]");
        makes("a=a|a;", "[100 -50 3]");
        makes("a=a&a;", "[100 -50 3]");
        makes("a=a-a;", "[]");
        makes("a=a^a;", "[]");
        makes("a=a^a^a;", "[100 -50 3]");
    }

    /** At each end of the numbers, round their middle, and NOTHING. */
    static void promise41_byOneMember() {
        for (String one : new String[] {"#", "-50", "-1", "0", "12", "13", "14", "50"}) {
            String member = one.equals("#") ? "100" : one;
            makes("a={" + one + "}|{};", "[" + member + "]");
            makes("a={}|{" + one + "};", "[" + member + "]");
            makes("a={" + one + "}&{" + one + "};", "[" + member + "]");
            makes("a={" + one + "}&{};", "[]");
            makes("a={" + one + "}-{};", "[" + member + "]");
            makes("a={" + one + "}-{" + one + "};", "[]");
            makes("a={" + one + "}^{};", "[" + member + "]");
            makes("a={}^{" + one + "};", "[" + member + "]");
            makes("a={" + one + "}^{" + one + "};", "[]");
        }
    }

    static void promise41_bracketsOneBehindTheOther() {
        makes("a=({1})&({2});", "[]");
        makes("a=({1,2}-{1})|({3}|{4});", "[2 3 4]");
        makes("a=({1}&({2}));b=({3});", "[]");
        makes("b=({3,4}^{3});a=({1}-{2});", "[1]");
    }

    static void promise41_fromTheLeftOn() {
        makes("a=b-{3}|{3};", "[3 4]");
        makes("a=b|{5}-b;", "[5]");
        makes("a={1,2}-{2}-{1}^{7};", "[7]");
        makes("a={1,2}&{2,3}&{3};", "[]");
        makes("a={1}|{2}&{3};", "[1]");
        makes("a={1,2}^{2,3}&{3};", "[1 2 3]");
        makes("a=({1}|{2})&{2};", "[2]");
    }

    static void promise41_eightBracketsAreDone() {
        makes("a={1}|({2}|({3}|({4}|({5}|({6}|({7}|({8}|({9}))))))));", "[1 2 3 4 5 6 7 8 9]");
        makes("a={9}-({9}-({9}-({9}-({9}-({9}-({9}-({9}-({9}))))))));", "[9]");
        makes("a={9}&({8,9}&({7..9}&({6..9}&({5..9}&({4..9}&({3..9}&({2..9}&(b|{9}))))))));", "[9]");
    }

    static void promise41_asAllSetsAreWhenItIsItsTurn() {
        makes("b={1};a=b;b={2};", "[1]");
        makes("a={1};a=a|{2};a=a-{1};", "[2]");
        makes("a=b;b=a|{9};a=b;", "[3 4 9]");
    }

    static void promise41_noErrorOfATextAhead() {
        String[] wrong = {"a={1}&({2}|{51", "a={1}-({2}^({3}-(", "a={1}-{5}&({6}-b&?", "a={1}^", "a=({1}&"};
        for (String text : wrong) {
            SetCouncil council = behindFurnished(text);
            Checks.due("run", Checks.outcome(council::run), "throws.IllegalStateException");
            council.clearText();
            Checks.due("errorKind of no text", council.errorKind(), 0);
            Checks.due("errorPlace of no text", council.errorPlace(), -1);
            Councils.write(council, "a={5}|({5,6}|({7}));");
            Checks.due("run behind " + text, council.run(), 1);
            Checks.due("a behind " + text, Snapshot.members(council, 0), "[5 6 7]");
        }
    }
}
