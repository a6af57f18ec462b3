/** Promises 2 to 19: what is done with one set, or with two. */
public final class SetsTest {
    private static final int[] WRONG_SETS = {-1, 8, Integer.MIN_VALUE, Integer.MAX_VALUE};
    private static final int[] WRONG_MEMBERS = {-51, 51, 99, 101, -100, Integer.MIN_VALUE, Integer.MAX_VALUE};

    public static void main(String[] args) {
        membersComeAndGo();
        membersOfAllKinds();
        sizesAndSums();
        clearing();
        filling();
        wrongFills();
        membersInOrder();
        leastAndGreatest();
        unionsMeetsAndRests();
        withItself();
        copies();
        sieves();
        wrongSieves();
        questionsAboutTwo();
        wrongSetsAndMembers();
        wrongPairs();
        Checks.end();
    }

    private static int[] set(int... members) {
        return members;
    }

    private static void members(String what, SetCouncil council, int set, String want) {
        Checks.due(what, Snapshot.members(council, set), want);
    }

    private static void membersComeAndGo() {
        SetCouncil council = new SetCouncil();
        Checks.due("has ahead of add", council.has(2, 7), false);
        Checks.due("remove ahead of add", council.remove(2, 7), false);
        Checks.due("add", council.add(2, 7), true);
        Checks.due("add again", council.add(2, 7), false);
        Checks.due("has", council.has(2, 7), true);
        Checks.due("has of another set", council.has(3, 7), false);
        Checks.due("has of another member", council.has(2, -7), false);
        Checks.due("remove", council.remove(2, 7), true);
        Checks.due("remove again", council.remove(2, 7), false);
        Checks.due("has behind remove", council.has(2, 7), false);
    }

    private static void membersOfAllKinds() {
        for (int member = -50; member <= 51; member++) {
            int one = member == 51 ? 100 : member;
            SetCouncil council = new SetCouncil();
            Checks.due("add " + one, council.add(7, one), true);
            Checks.due("add again " + one, council.add(7, one), false);
            members("members behind add " + one, council, 7, "[" + one + "]");
            Checks.due("size behind add " + one, council.size(7), 1);
            Checks.due("sum behind add " + one, council.sum(7), one == 100 ? 0 : one);
            Checks.due("remove " + one, council.remove(7, one), true);
            Checks.due("size behind remove " + one, council.size(7), 0);
        }
    }

    private static void sizesAndSums() {
        SetCouncil council = Councils.of(set(100, -50, 50, 13, -1));
        Checks.due("size", council.size(0), 5);
        Checks.due("sum, where NOTHING counts as 0", council.sum(0), 12);
        council.fill(1, -50, 1, 101);
        council.add(1, 100);
        Checks.due("size of all members", council.size(1), 102);
        Checks.due("sum of all members", council.sum(1), 0);
        council.fill(2, 1, 1, 50);
        Checks.due("sum of 1 to 50", council.sum(2), 1275);
        council.fill(3, -50, 1, 50);
        Checks.due("sum of -50 to -1", council.sum(3), -1275);
    }

    private static void clearing() {
        SetCouncil council = Councils.of(set(100, 1, 2), set(1));
        Checks.due("clear", council.clear(0), 3);
        Checks.due("size behind clear", council.size(0), 0);
        Checks.due("clear again", council.clear(0), 0);
        Checks.due("size of another set behind clear", council.size(1), 1);
    }

    private static void filling() {
        SetCouncil council = new SetCouncil();
        Checks.due("fill", council.fill(0, 0, 3, 4), 4);
        members("members behind fill", council, 0, "[0 3 6 9]");
        Checks.due("fill with some that are there", council.fill(0, 5, -1, 4), 3);
        members("members behind that", council, 0, "[0 2 3 4 5 6 9]");
        Checks.due("fill none", council.fill(0, 50, 1, 0), 0);
        Checks.due("fill by step 0", council.fill(1, -50, 0, 101), 1);
        Checks.due("fill by step 0 again", council.fill(1, -50, 0, 101), 0);
        Checks.due("fill beyond 50", council.fill(2, 49, 1, 101), 2);
        members("members behind that", council, 2, "[49 50]");
        Checks.due("fill below -50", council.fill(3, -49, -1, 101), 2);
        members("members behind that", council, 3, "[-50 -49]");
        Checks.due("fill by -100", council.fill(4, 50, -100, 101), 2);
        members("members behind that", council, 4, "[-50 50]");
        Checks.due("fill by 100 does not come to NOTHING", council.fill(5, 0, 100, 2), 1);
        members("members behind that", council, 5, "[0]");
        Checks.due("fill by 50 does not come to NOTHING", council.fill(6, -50, 50, 101), 3);
        members("members behind that", council, 6, "[-50 0 50]");
        Checks.due("fill by 1 from -50", council.fill(7, -50, 1, 101), 101);
        Checks.due("NOTHING behind that", council.has(7, 100), false);
    }

    private static void wrongFills() {
        int[][] wrong = {{-51, 1, 1}, {51, 1, 1}, {100, 1, 1}, {0, -101, 1}, {0, 101, 1}, {0, 1, -1}, {0, 1, 102},
            {Integer.MIN_VALUE, 1, 1}, {0, Integer.MAX_VALUE, 1}, {0, 1, Integer.MIN_VALUE}, {51, 1, 0}};
        for (int[] each : wrong) {
            Checks.illegalArgument("fill " + java.util.Arrays.toString(each), Councils::furnished,
                council -> council.fill(1, each[0], each[1], each[2]));
        }
    }

    private static void membersInOrder() {
        SetCouncil council = Councils.of(set(50, 0, 12, 13, 14, -50, 100, -1));
        int[] order = {100, -50, -1, 0, 12, 13, 14, 50};
        for (int index = 0; index < order.length; index++) {
            Checks.due("memberAt " + index, council.memberAt(0, index), order[index]);
        }
        int[] wrong = {-1, 8, 102, Integer.MIN_VALUE, Integer.MAX_VALUE};
        for (int index : wrong) {
            Checks.due("memberAt " + index, Checks.outcome(() -> council.memberAt(0, index)),
                "throws.NoSuchElementException");
        }
        Checks.noSuchElement("memberAt of an empty set", Councils::furnished, other -> other.memberAt(2, 0));
        Checks.noSuchElement("memberAt one too far", Councils::furnished, other -> other.memberAt(0, 3));
    }

    private static void leastAndGreatest() {
        SetCouncil council = Councils.of(set(100, 7, -3), set(9), set(50, -50), set(12, 13), set(100));
        Checks.due("least", council.least(0), -3);
        Checks.due("greatest", council.greatest(0), 7);
        Checks.due("least of one", council.least(1), 9);
        Checks.due("greatest of one", council.greatest(1), 9);
        Checks.due("least of all", council.least(2), -50);
        Checks.due("greatest of all", council.greatest(2), 50);
        Checks.due("least of 12 and 13", council.least(3), 12);
        Checks.due("greatest of 12 and 13", council.greatest(3), 13);
        Checks.noSuchElement("least of NOTHING", Councils::furnished, other -> other.least(4));
        Checks.noSuchElement("greatest of NOTHING", Councils::furnished, other -> other.greatest(4));
        Checks.noSuchElement("least of none", Councils::furnished, other -> other.least(2));
        Checks.noSuchElement("greatest of none", Councils::furnished, other -> other.greatest(2));
    }

    private static void unionsMeetsAndRests() {
        SetCouncil council = Councils.of(set(100, 1, 20), set(1, 2, 40), set(1, 2, 40), set(100, 1, 20), set(100, 1, 20));
        Checks.due("unite", council.unite(2, 0), true);
        members("the union", council, 2, "[100 1 2 20 40]");
        Checks.due("unite again", council.unite(2, 0), false);
        Checks.due("unite with the empty set", council.unite(2, 7), false);
        Checks.due("meet", council.meet(3, 1), true);
        members("the meet", council, 3, "[1]");
        Checks.due("meet again", council.meet(3, 1), false);
        Checks.due("without", council.without(4, 1), true);
        members("the rest", council, 4, "[100 20]");
        Checks.due("without again", council.without(4, 1), false);
        members("the other one", council, 1, "[1 2 40]");
        Checks.due("meet with the empty set", council.meet(4, 7), true);
        members("that meet", council, 4, "[]");
        Checks.due("the empty set meets", council.meet(7, 0), false);
        Checks.due("the empty set unites", council.unite(7, 0), true);
        members("that union", council, 7, "[100 1 20]");
        Checks.due("without a greater one", council.without(7, 2), true);
        members("that rest", council, 7, "[]");
        Checks.due("unite where only 40 is new", council.unite(0, 1), true);
        Checks.due("meet where only NOTHING goes", Councils.of(set(100, 1), set(1)).meet(0, 1), true);
        Checks.due("without where only 50 goes", Councils.of(set(50, 1), set(50)).without(0, 1), true);
    }

    private static void withItself() {
        SetCouncil council = Councils.of(set(100, 1));
        Checks.due("unite with itself", council.unite(0, 0), false);
        Checks.due("meet with itself", council.meet(0, 0), false);
        Checks.due("copy of itself", council.copy(0, 0), 2);
        members("the set behind that", council, 0, "[100 1]");
        Checks.due("without itself", council.without(0, 0), true);
        members("the set behind that", council, 0, "[]");
        Checks.due("empty, without itself", council.without(0, 0), false);
    }

    private static void copies() {
        SetCouncil council = Councils.of(set(100, 1, 50), set(2));
        Checks.due("copy", council.copy(1, 0), 3);
        members("the copy", council, 1, "[100 1 50]");
        council.add(0, 3);
        members("the copy when the first one changes", council, 1, "[100 1 50]");
        council.remove(1, 100);
        members("the first one when the copy changes", council, 0, "[100 1 3 50]");
        Checks.due("copy of the empty set", council.copy(0, 5), 0);
        members("that copy", council, 0, "[]");
    }

    private static void sieves() {
        SetCouncil council = Councils.of(set(-7, -6, -5, -1, 0, 1, 5, 6, 7, 100));
        Checks.due("sieve with a rest of numbers below 0", council.sieve(0, 3, 2), 3);
        members("behind that sieve", council, 0, "[100 -6 -5 0 1 6 7]");
        Checks.due("sieve again", council.sieve(0, 3, 2), 0);
        Checks.due("sieve with a rest that is the modulus", council.sieve(0, 3, 3), 0);
        Checks.due("sieve with a rest above the modulus", council.sieve(0, 1, 99), 0);
        Checks.due("sieve of all numbers", council.sieve(0, 1, 0), 6);
        members("behind that sieve", council, 0, "[100]");
        SetCouncil other = Councils.of(set(-50, 50, -1, 0, 49));
        Checks.due("sieve by 100 with rest 50", other.sieve(0, 100, 50), 2);
        Checks.due("sieve by 100 with rest 99", other.sieve(0, 100, 99), 1);
        members("behind these sieves", other, 0, "[0 49]");
        Checks.due("sieve of the empty set", other.sieve(1, 2, 0), 0);
    }

    private static void wrongSieves() {
        int[][] wrong = {{0, 0}, {-1, 0}, {101, 0}, {Integer.MIN_VALUE, 0}, {2, -1}, {2, 100}, {2, Integer.MAX_VALUE}};
        for (int[] each : wrong) {
            Checks.illegalArgument("sieve " + java.util.Arrays.toString(each), Councils::furnished,
                council -> council.sieve(0, each[0], each[1]));
        }
    }

    private static void questionsAboutTwo() {
        SetCouncil council = Councils.of(set(100, 1, 50), set(1, 50), set(2, 49), set(100), set(1, 50));
        Checks.due("isWithin", council.isWithin(1, 0), true);
        Checks.due("isWithin the other way", council.isWithin(0, 1), false);
        Checks.due("isWithin the same", council.isWithin(1, 4), true);
        Checks.due("isWithin itself", council.isWithin(0, 0), true);
        Checks.due("the empty set isWithin", council.isWithin(7, 0), true);
        Checks.due("the empty set isWithin itself", council.isWithin(7, 7), true);
        Checks.due("isWithin the empty set", council.isWithin(3, 7), false);
        Checks.due("isWithin one apart", council.isWithin(2, 0), false);
        Checks.due("isApart", council.isApart(1, 2), true);
        Checks.due("isApart with NOTHING in common", council.isApart(0, 3), false);
        Checks.due("isApart with numbers in common", council.isApart(0, 1), false);
        Checks.due("isApart from itself", council.isApart(2, 2), false);
        Checks.due("the empty set isApart", council.isApart(0, 7), true);
        Checks.due("the empty set isApart from itself", council.isApart(7, 7), true);
        Checks.due("isSame", council.isSame(1, 4), true);
        Checks.due("isSame as itself", council.isSame(0, 0), true);
        Checks.due("isSame but for NOTHING", council.isSame(0, 1), false);
        Checks.due("empty sets are the same", council.isSame(6, 7), true);
        Checks.due("isSame, all else", council.isSame(2, 7), false);
    }

    private static void wrongSetsAndMembers() {
        for (int set : WRONG_SETS) {
            Checks.outOfBounds("add to " + set, Councils::furnished, council -> council.add(set, 1));
            Checks.outOfBounds("add 51 to " + set, Councils::furnished, council -> council.add(set, 51));
            Checks.outOfBounds("remove from " + set, Councils::furnished, council -> council.remove(set, 1));
            Checks.outOfBounds("remove 51 from " + set, Councils::furnished, council -> council.remove(set, 51));
            Checks.outOfBounds("has of " + set, Councils::furnished, council -> council.has(set, 1));
            Checks.outOfBounds("has 51 of " + set, Councils::furnished, council -> council.has(set, 51));
            Checks.outOfBounds("size of " + set, Councils::furnished, council -> council.size(set));
            Checks.outOfBounds("sum of " + set, Councils::furnished, council -> council.sum(set));
            Checks.outOfBounds("clear " + set, Councils::furnished, council -> council.clear(set));
            Checks.outOfBounds("fill " + set, Councils::furnished, council -> council.fill(set, 1, 1, 1));
            Checks.outOfBounds("fill wrongly " + set, Councils::furnished, council -> council.fill(set, 51, 101, 102));
            Checks.outOfBounds("memberAt of " + set, Councils::furnished, council -> council.memberAt(set, -1));
            Checks.outOfBounds("least of " + set, Councils::furnished, council -> council.least(set));
            Checks.outOfBounds("greatest of " + set, Councils::furnished, council -> council.greatest(set));
            Checks.outOfBounds("sieve " + set, Councils::furnished, council -> council.sieve(set, 2, 0));
            Checks.outOfBounds("sieve wrongly " + set, Councils::furnished, council -> council.sieve(set, 0, -1));
        }
        for (int member : WRONG_MEMBERS) {
            Checks.illegalArgument("add " + member, Councils::furnished, council -> council.add(0, member));
            Checks.illegalArgument("remove " + member, Councils::furnished, council -> council.remove(0, member));
            Checks.illegalArgument("has " + member, Councils::furnished, council -> council.has(0, member));
        }
    }

    private static void wrongPairs() {
        for (int wrong : WRONG_SETS) {
            int[][] pairs = {{0, wrong}, {wrong, 0}, {wrong, wrong}};
            for (int[] pair : pairs) {
                String which = java.util.Arrays.toString(pair);
                int a = pair[0];
                int b = pair[1];
                Checks.outOfBounds("unite " + which, Councils::furnished, council -> council.unite(a, b));
                Checks.outOfBounds("meet " + which, Councils::furnished, council -> council.meet(a, b));
                Checks.outOfBounds("without " + which, Councils::furnished, council -> council.without(a, b));
                Checks.outOfBounds("copy " + which, Councils::furnished, council -> council.copy(a, b));
                Checks.outOfBounds("isWithin " + which, Councils::furnished, council -> council.isWithin(a, b));
                Checks.outOfBounds("isApart " + which, Councils::furnished, council -> council.isApart(a, b));
                Checks.outOfBounds("isSame " + which, Councils::furnished, council -> council.isSame(a, b));
            }
        }
    }
}
