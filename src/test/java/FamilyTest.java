/** Promises 22 to 34, and 47: the family. */
public final class FamilyTest {
    private static final int[] WRONG_SETS = {-1, 8, Integer.MIN_VALUE, Integer.MAX_VALUE};
    private static final int[] WRONG_WAYS = {-1, 3, Integer.MIN_VALUE, Integer.MAX_VALUE};

    public static void main(String[] args) {
        setsComeAndGo();
        whatItHoldsStays();
        sevenSets();
        theEmptySet();
        sums();
        theOrder();
        places();
        taking();
        spreading();
        spreadingBeyondSeven();
        closedFamilies();
        chains();
        primeSets();
        primesWithinSets();
        noFamilyErrors();
        wrongSets();
        wrongWays();
        wrongPlaces();
        Checks.end();
    }

    private static int[] set(int... members) {
        return members;
    }

    /** A council whose family holds these sets, at most 7; the eight sets are those, then empty ones. */
    private static SetCouncil family(int[]... members) {
        SetCouncil council = Councils.of(members);
        for (int i = 0; i < members.length; i++) {
            council.keep(i);
        }
        return council;
    }

    private static void setsComeAndGo() {
        SetCouncil council = Councils.of(set(1, 2), set(3), set(1, 2));
        Checks.due("isKept ahead of keep", council.isKept(0), false);
        Checks.due("drop ahead of keep", council.drop(0), false);
        Checks.due("keep", council.keep(0), true);
        Checks.due("kept", council.kept(), 1);
        Checks.due("keep again", council.keep(0), false);
        Checks.due("keep the same, made otherwise", council.keep(2), false);
        Checks.due("kept", council.kept(), 1);
        Checks.due("isKept", council.isKept(0), true);
        Checks.due("isKept of the same", council.isKept(2), true);
        Checks.due("isKept of another one", council.isKept(1), false);
        Checks.due("keep another one", council.keep(1), true);
        Checks.due("kept", council.kept(), 2);
        Checks.due("drop by the same", council.drop(2), true);
        Checks.due("drop again", council.drop(0), false);
        Checks.due("kept", council.kept(), 1);
        Checks.due("isKept of what is left", council.isKept(1), true);
        Checks.due("dropAll", council.dropAll(), 1);
        Checks.due("dropAll again", council.dropAll(), 0);
        Checks.due("kept", council.kept(), 0);
        Checks.due("isKept behind dropAll", council.isKept(1), false);
    }

    private static void whatItHoldsStays() {
        SetCouncil council = family(set(1, 2));
        council.add(0, 3);
        Checks.due("isKept of a set that changed", council.isKept(0), false);
        Checks.due("keptSum when a set changed", council.keptSum(), 3);
        Checks.due("keep of a set that changed", council.keep(0), true);
        Checks.due("take", council.take(1, 1), 2);
        council.add(1, 9);
        Checks.due("the family when a taken set changed", Snapshot.family(council), "[1 2 3][1 2]");
    }

    private static void sevenSets() {
        SetCouncil council = new SetCouncil();
        for (int number = 0; number < 7; number++) {
            council.clear(0);
            council.add(0, number);
            Checks.due("keep " + number, council.keep(0), true);
        }
        Checks.due("kept", council.kept(), 7);
        Checks.due("keep of one that is there, in a full family", council.keep(0), false);
        Checks.illegalState("keep the eighth", Councils::fullFamily, other -> other.keep(0));
        Checks.illegalState("keep the empty set as the eighth", Councils::fullFamily, other -> other.keep(2));
        Checks.outOfBounds("keep no set in a full family", Councils::fullFamily, other -> other.keep(8));
        Checks.due("drop one of seven", council.drop(0), true);
        council.add(0, 50);
        Checks.due("keep in its stead", council.keep(0), true);
        Checks.due("all seven", Snapshot.family(council), "[0][1][2][3][4][5][6 50]");
    }

    private static void theEmptySet() {
        SetCouncil council = new SetCouncil();
        Checks.due("isKept of the empty set in an empty family", council.isKept(0), false);
        Checks.due("keep the empty set", council.keep(0), true);
        Checks.due("keep the empty set again", council.keep(5), false);
        Checks.due("kept", council.kept(), 1);
        Checks.due("isKept of the empty set", council.isKept(5), true);
        Checks.due("place of the empty set", council.placeOf(5), 0);
        Checks.due("primes of it", council.primes(), 0);
        Checks.due("drop the empty set", council.drop(7), true);
        Checks.due("kept", council.kept(), 0);
    }

    private static void sums() {
        Checks.due("keptSum of no sets", new SetCouncil().keptSum(), 0);
        Checks.due("keptSum", family(set(1, 2), set(2, 100), set(-50, 3), set()).keptSum(), -42);
        SetCouncil council = new SetCouncil();
        for (int i = 0; i < 7; i++) {
            council.clear(0);
            council.fill(0, i, 1, 51);
            council.keep(0);
        }
        Checks.due("keptSum of great sets", council.keptSum(), 7 * 1275 - 35);
    }

    /** The set with the first member that just one of both has is first; so the empty set is last. */
    private static void theOrder() {
        SetCouncil council = family(set(), set(100), set(-50), set(100, -50), set(50), set(-50, 50), set(13, 50));
        Checks.due("the order", Snapshot.family(council), "[100 -50][100][-50 50][-50][13 50][50][]");
        council = family(set(1, 3), set(1, 2, 3), set(1, 2), set(2, 3), set(1), set(3), set(2));
        Checks.due("the order of parts", Snapshot.family(council), "[1 2 3][1 2][1 3][1][2 3][2][3]");
        council = family(set(12), set(13), set(12, 13), set(12, 14), set(13, 14), set(14), set(11));
        Checks.due("the order round 12", Snapshot.family(council), "[11][12 13][12 14][12][13 14][13][14]");
    }

    private static void places() {
        SetCouncil council = family(set(3), set(100), set(), set(-1, 3));
        Checks.due("place of [100]", council.placeOf(1), 0);
        Checks.due("place of [-1 3]", council.placeOf(3), 1);
        Checks.due("place of [3]", council.placeOf(0), 2);
        Checks.due("place of []", council.placeOf(2), 3);
        Checks.due("place of [] by another set", council.placeOf(7), 3);
        council.add(7, 3);
        council.add(7, 4);
        Checks.due("place of what is not there", council.placeOf(7), -1);
        council.drop(1);
        Checks.due("place of [-1 3] behind drop", council.placeOf(3), 0);
        council.drop(0);
        Checks.due("place of [] behind drop", council.placeOf(2), 1);
        Checks.due("place in an empty family", new SetCouncil().placeOf(0), -1);
    }

    private static void taking() {
        SetCouncil council = family(set(3), set(100, 7, 50), set());
        Checks.due("take the first", council.take(4, 0), 3);
        Checks.due("what was taken", Snapshot.members(council, 4), "[100 7 50]");
        Checks.due("take the second", council.take(1, 1), 1);
        Checks.due("what was taken", Snapshot.members(council, 1), "[3]");
        Checks.due("take the last", council.take(0, 2), 0);
        Checks.due("what was taken", Snapshot.members(council, 0), "[]");
        Checks.due("kept behind take", council.kept(), 3);
    }

    private static void spreading() {
        SetCouncil council = family(set(1, 2), set(2, 3));
        Checks.due("spread of unions", council.spread(SetCouncil.UNION), 1);
        Checks.due("the family", Snapshot.family(council), "[1 2 3][1 2][2 3]");
        Checks.due("spread of unions again", council.spread(SetCouncil.UNION), 0);
        Checks.due("spread of meets", council.spread(SetCouncil.MEET), 1);
        Checks.due("the family", Snapshot.family(council), "[1 2 3][1 2][2 3][2]");
        council = family(set(1, 2), set(2, 3));
        Checks.due("spread of rests, both ways", council.spread(SetCouncil.WITHOUT), 2);
        Checks.due("the family", Snapshot.family(council), "[1 2][1][2 3][3]");
        council = family(set(1), set(2), set(3));
        Checks.due("spread of unions as the family is now", council.spread(SetCouncil.UNION), 3);
        Checks.due("the family", Snapshot.family(council), "[1 2][1 3][1][2 3][2][3]");
        council = family(set(1), set(2), set(3));
        Checks.due("spread of meets", council.spread(SetCouncil.MEET), 1);
        Checks.due("the family", Snapshot.family(council), "[1][2][3][]");
        council = family(set(1, 2));
        for (int how = 0; how < 3; how++) {
            Checks.due("spread of one set by " + how, council.spread(how), 0);
            Checks.due("spread of none by " + how, new SetCouncil().spread(how), 0);
        }
        council = family(set(1), set(1, 2));
        Checks.due("spread of rests of a chain", council.spread(SetCouncil.WITHOUT), 2);
        Checks.due("the family", Snapshot.family(council), "[1 2][1][2][]");
    }

    private static void spreadingBeyondSeven() {
        SetCouncil council = family(set(1), set(2), set(3), set(4));
        Checks.due("spread to 10 sets", council.spread(SetCouncil.UNION), -1);
        Checks.due("the family behind that", Snapshot.family(council), "[1][2][3][4]");
        Checks.due("spread to 5 sets", council.spread(SetCouncil.MEET), 1);
        council = family(set(1), set(2), set(3), set(1, 2), set(1, 3), set(2, 3));
        Checks.due("spread to 7 sets, some by several ways", council.spread(SetCouncil.UNION), 1);
        Checks.due("kept", council.kept(), 7);
        Checks.due("spread of seven that are closed", council.spread(SetCouncil.UNION), 0);
        Checks.due("spread to 8 sets", council.spread(SetCouncil.MEET), -1);
        Checks.due("the family behind that", Snapshot.family(council), "[1 2 3][1 2][1 3][1][2 3][2][3]");
        council = family(set(1, 2, 3), set(3, 4, 5), set(1, 5, 6));
        Checks.due("spread to 9 sets by rests", council.spread(SetCouncil.WITHOUT), -1);
        Checks.due("the family behind that", Snapshot.family(council), "[1 2 3][1 5 6][3 4 5]");
    }

    private static void closedFamilies() {
        SetCouncil none = new SetCouncil();
        SetCouncil one = family(set(1));
        SetCouncil rests = family(set(1, 2), set(1), set(2), set());
        SetCouncil apart = family(set(1), set(2));
        SetCouncil oneWay = family(set(1, 2), set(1), set());
        for (int how = 0; how < 3; how++) {
            Checks.due("isClosed of none by " + how, none.isClosed(how), true);
            Checks.due("isClosed of one by " + how, one.isClosed(how), true);
            Checks.due("isClosed of all parts by " + how, rests.isClosed(how), true);
            Checks.due("isClosed of two by " + how, apart.isClosed(how), how == SetCouncil.WITHOUT);
            Checks.due("isClosed of a chain by " + how, oneWay.isClosed(how), how != SetCouncil.WITHOUT);
        }
        Checks.due("isClosed by rests without the empty set", family(set(1, 2), set(1), set(2))
            .isClosed(SetCouncil.WITHOUT), false);
        SetCouncil unions = family(set(1, 2, 3), set(1, 2), set(2, 3));
        Checks.due("isClosed by unions", unions.isClosed(SetCouncil.UNION), true);
        Checks.due("isClosed by meets", unions.isClosed(SetCouncil.MEET), false);
        Checks.due("isClosed by meets with the meet", family(set(1, 2, 3), set(1, 2), set(2, 3), set(2))
            .isClosed(SetCouncil.MEET), true);
        Checks.due("isClosed by unions without it", family(set(1, 2), set(2, 3), set(2))
            .isClosed(SetCouncil.UNION), false);
    }

    private static void chains() {
        Checks.due("isChain of none", new SetCouncil().isChain(), true);
        Checks.due("isChain of one", family(set(1)).isChain(), true);
        Checks.due("isChain of a chain", family(set(1, 2, 100), set(), set(2), set(1, 2)).isChain(), true);
        Checks.due("isChain of two apart", family(set(1), set(2)).isChain(), false);
        Checks.due("isChain of two that meet", family(set(1, 2), set(2, 3), set(1, 2, 3)).isChain(), false);
        Checks.due("isChain but for the last", family(set(), set(1), set(1, 2), set(50)).isChain(), false);
    }

    private static void primeSets() {
        Checks.due("primes of none", new SetCouncil().primes(), 0);
        Checks.due("primes of one", family(set(1)).primes(), 1);
        Checks.due("primes of a chain", family(set(), set(1), set(1, 2), set(1, 2, 3)).primes(), 3);
        Checks.due("primes of a union", family(set(1), set(2), set(1, 2)).primes(), 2);
        Checks.due("primes of a union that lacks a member", family(set(1), set(2), set(1, 2, 3)).primes(), 3);
        Checks.due("primes of unions of unions",
            family(set(1), set(2), set(3), set(1, 2), set(1, 3), set(2, 3), set(1, 2, 3)).primes(), 3);
        Checks.due("primes that overlap", family(set(1, 2), set(2, 3), set(1, 2, 3), set(1, 2, 3, 4)).primes(), 3);
        Checks.due("NOTHING makes a prime", family(set(1), set(1, 100)).primes(), 2);
        Checks.due("a union with NOTHING", family(set(1), set(100), set(1, 100)).primes(), 2);
    }

    private static void primesWithinSets() {
        SetCouncil council = family(set(1), set(2), set(1, 2), set(), set(3, 4));
        council.fill(6, 1, 1, 4);
        Checks.due("primesWithin all", council.primesWithin(6), 3);
        Checks.due("primesWithin a union", council.primesWithin(2), 2);
        Checks.due("primesWithin a prime", council.primesWithin(0), 1);
        Checks.due("primesWithin the empty set", council.primesWithin(3), 0);
        council.remove(6, 4);
        Checks.due("primesWithin all but one member", council.primesWithin(6), 2);
        council.remove(6, 1);
        Checks.due("primesWithin two members", council.primesWithin(6), 1);
        Checks.due("primesWithin of no family", new SetCouncil().primesWithin(0), 0);
    }

    private static void noFamilyErrors() {
        Checks.due("familyErrors of none", new SetCouncil().familyErrors(), 0);
        Checks.due("familyErrors of one", family(set(1)).familyErrors(), 0);
        Checks.due("familyErrors of the empty set", family(set()).familyErrors(), 0);
        Checks.due("familyErrors of a union", family(set(1), set(2), set(1, 2), set()).familyErrors(), 0);
        SetCouncil council = family(set(1), set(2), set(3), set(1, 2), set(1, 3), set(2, 3), set(1, 2, 3));
        Checks.due("familyErrors of seven", council.familyErrors(), 0);
        Checks.due("the family behind that", Snapshot.family(council), "[1 2 3][1 2][1 3][1][2 3][2][3]");
    }

    private static void wrongSets() {
        for (int set : WRONG_SETS) {
            Checks.outOfBounds("keep " + set, Councils::furnished, council -> council.keep(set));
            Checks.outOfBounds("drop " + set, Councils::furnished, council -> council.drop(set));
            Checks.outOfBounds("isKept " + set, Councils::furnished, council -> council.isKept(set));
            Checks.outOfBounds("placeOf " + set, Councils::furnished, council -> council.placeOf(set));
            Checks.outOfBounds("take " + set, Councils::furnished, council -> council.take(set, 0));
            Checks.outOfBounds("take no place " + set, Councils::furnished, council -> council.take(set, 9));
            Checks.outOfBounds("primesWithin " + set, Councils::furnished, council -> council.primesWithin(set));
        }
    }

    private static void wrongWays() {
        for (int how : WRONG_WAYS) {
            Checks.illegalArgument("spread " + how, Councils::furnished, council -> council.spread(how));
            Checks.illegalArgument("isClosed " + how, Councils::furnished, council -> council.isClosed(how));
            Checks.illegalArgument("spread of full " + how, Councils::fullFamily, council -> council.spread(how));
            Checks.illegalArgument("spread of none " + how, SetCouncil::new, council -> council.spread(how));
            Checks.illegalArgument("isClosed of none " + how, SetCouncil::new, council -> council.isClosed(how));
        }
    }

    private static void wrongPlaces() {
        int[] wrong = {-1, 3, 7, Integer.MIN_VALUE, Integer.MAX_VALUE};
        for (int place : wrong) {
            Checks.noSuchElement("take place " + place, Councils::furnished, council -> council.take(0, place));
        }
        Checks.noSuchElement("take of no family", SetCouncil::new, council -> council.take(0, 0));
        Checks.noSuchElement("take beyond seven", Councils::fullFamily, council -> council.take(0, 7));
    }
}
