/** The boundary cases of promises 22 to 34, and 47: the family. */
public final class EdgesOfFamilyTest {
    private static final int[] BEYOND = {Integer.MIN_VALUE, Integer.MAX_VALUE, 256, 65536};

    public static void main(String[] args) {
        Edges.run(EdgesOfFamilyTest.class);
    }

    private static int[] set(int... members) {
        return members;
    }

    /** A council whose family holds these sets, at most 7; the eight sets are those, then empty ones. */
    private static SetCouncil family(int[]... members) {
        SetCouncil council = Councils.of(members);
        for (int i = 0; i < members.length; i++) {
            council.keep(i);
        }
        return council;
    }

    private static SetCouncil emptySetAlone() {
        return family(set());
    }

    /** Seven sets, each one within the next one. */
    private static SetCouncil chainOfSeven() {
        return family(set(), set(1), set(1, 2), set(1, 2, 3), set(1, 2, 3, 4), set(100, 1, 2, 3, 4),
            set(100, 1, 2, 3, 4, 5));
    }

    /** Seven sets, all unions of three of them. */
    private static SetCouncil unionsOfThree() {
        return family(set(1), set(2), set(3), set(1, 2), set(1, 3), set(2, 3), set(1, 2, 3));
    }

    private static void holds(SetCouncil council, String want) {
        Checks.due("the family", Snapshot.family(council), want);
    }

    static void promise22_setsFrom0To7() {
        Edges.sets(SetCouncil::keep, false, false);
        SetCouncil council = Councils.of(set(1), set(), set(), set(), set(), set(), set(), set(2));
        Checks.due("keep of set 0", council.keep(0), true);
        Checks.due("keep of set 7", council.keep(7), true);
        holds(council, "[1][2]");
    }

    static void promise22_fromNoneToSeven() {
        SetCouncil council = new SetCouncil();
        for (int number = 0; number < 7; number++) {
            council.clear(0);
            council.add(0, number);
            Checks.due("keep of " + number, council.keep(0), true);
            Checks.due("kept", council.kept(), number + 1);
        }
    }

    static void promise22_theEighthIsRefused() {
        for (int set = 0; set < 8; set++) {
            int one = set;
            Checks.illegalState("keep of set " + one, Councils::fullFamily, council -> council.keep(one));
        }
    }

    static void promise22_oneThatAFullFamilyHolds() {
        for (int number = -20; number < -13; number++) {
            int one = number;
            SetCouncil council = Councils.fullFamily();
            council.add(6, one);
            Checks.due("keep of " + one, council.keep(6), false);
            Checks.due("kept", council.kept(), 7);
        }
        Checks.changesNothing("keep of the empty set", false, EdgesOfFamilyTest::chainOfSeven,
            council -> council.keep(0));
    }

    static void promise22_roomAgainBehindDrop() {
        SetCouncil council = Councils.fullFamily();
        council.add(6, -17);
        Checks.due("drop", council.drop(6), true);
        Checks.due("keep in its stead", council.keep(0), true);
        Checks.due("kept", council.kept(), 7);
        Checks.due("keep of one more", Checks.outcome(() -> council.keep(1)), "throws.IllegalStateException");
        holds(council, "[100 -50 3][-20][-19][-18][-16][-15][-14]");
    }

    static void promise22_eachSetOnceHoweverMade() {
        SetCouncil council = Councils.of(set(1, 2, 100), set(1), set(2, 100, 3), set(1, 2, 3, 100));
        Checks.due("keep", council.keep(0), true);
        council.copy(4, 0);
        Checks.due("keep of its copy", council.keep(4), false);
        council.unite(1, 0);
        Checks.due("keep of a union", council.keep(1), false);
        council.remove(3, 3);
        Checks.due("keep of what one member was removed from", council.keep(3), false);
        council.without(2, 0);
        Checks.due("keep of another one", council.keep(2), true);
        Checks.due("kept", council.kept(), 2);
    }

    static void promise22_theEmptyAndTheFullSet() {
        SetCouncil council = Councils.fullSet();
        council.dropAll();
        Checks.due("keep of the empty set", council.keep(2), true);
        Checks.due("keep of another empty set", council.keep(6), false);
        Checks.due("keep of the full set", council.keep(0), true);
        Checks.due("keep of the full set again", council.keep(0), false);
        Checks.due("kept", council.kept(), 2);
        council.remove(0, 100);
        Checks.due("keep of the full set but for NOTHING", council.keep(0), true);
    }

    /** "What it holds does not change when one of the eight sets changes later." */
    static void promise22_whatIsHeldStays() {
        Checks.CouncilCall[] changes = {council -> council.add(0, 5), council -> council.remove(0, 3),
            council -> council.clear(0), council -> council.fill(0, 0, 1, 9), council -> council.unite(0, 1),
            council -> council.meet(0, 1), council -> council.without(0, 1), council -> council.copy(0, 1),
            council -> council.sieve(0, 3, 0), council -> council.elect(0, 2), council -> council.take(0, 1),
            council -> council.run()};
        for (int i = 0; i < changes.length; i++) {
            SetCouncil council = Councils.edged();
            changes[i].answer(council);
            Checks.due("keptSum behind change " + i, council.keptSum(), 67);
            holds(council, "[100 -50 3][3 4][7 50][50]");
        }
    }

    static void promise22_theSetIsLookedAtFirst() {
        Edges.noSets(Councils::fullFamily, SetCouncil::keep);
    }

    static void promise23_setsFrom0To7() {
        Edges.sets(SetCouncil::drop, true, true);
    }

    static void promise23_anEmptyFamily() {
        Checks.changesNothing("drop of a set", false, () -> Councils.of(set(1)), council -> council.drop(0));
        Checks.changesNothing("drop of the empty set", false, SetCouncil::new, council -> council.drop(0));
    }

    static void promise23_oneThatItDoesNotHold() {
        Checks.changesNothing("drop", false, Councils::edged, council -> council.drop(5));
        Checks.changesNothing("drop from a full family", false, Councils::fullFamily, council -> council.drop(0));
        Checks.changesNothing("drop of the empty set", false, Councils::fullFamily, council -> council.drop(2));
    }

    static void promise23_eachOneOfAFullFamily() {
        for (int set = 0; set < 7; set++) {
            SetCouncil council = unionsOfThree();
            Checks.due("drop of set " + set, council.drop(set), true);
            Checks.due("kept", council.kept(), 6);
            for (int other = 0; other < 7; other++) {
                Checks.due("isKept of set " + other, council.isKept(other), other != set);
            }
            Checks.due("drop of set " + set + " again", council.drop(set), false);
        }
    }

    static void promise23_theLastOne() {
        SetCouncil council = emptySetAlone();
        Checks.due("drop of the empty set", council.drop(7), true);
        Checks.due("kept", council.kept(), 0);
        Checks.due("drop of the empty set again", council.drop(7), false);
    }

    static void promise24_setsFrom0To7() {
        Edges.sets(SetCouncil::isKept, true, true);
    }

    static void promise24_anEmptyFamily() {
        Checks.changesNothing("isKept of a set", false, () -> Councils.of(set(1)), council -> council.isKept(0));
        Checks.changesNothing("isKept of the empty set", false, SetCouncil::new, council -> council.isKept(0));
    }

    static void promise24_aFullFamily() {
        for (int set = 0; set < 8; set++) {
            SetCouncil council = unionsOfThree();
            Checks.due("isKept of set " + set, council.isKept(set), set < 7);
        }
        Checks.due("isKept of the empty set", chainOfSeven().isKept(0), true);
    }

    static void promise24_byOneMember() {
        for (int member : set(100, -50, 12, 13, 50)) {
            SetCouncil council = family(set(7));
            council.add(0, member);
            Checks.due("isKept with " + member, council.isKept(0), false);
            council.remove(0, member);
            Checks.due("isKept without " + member, council.isKept(0), true);
        }
    }

    static void promise25_fromNoneToSeven() {
        Checks.due("kept of none", new SetCouncil().kept(), 0);
        Checks.due("kept of the empty set", emptySetAlone().kept(), 1);
        Checks.due("kept of seven", unionsOfThree().kept(), 7);
    }

    static void promise26_noSets() {
        Checks.due("keptSum of none", new SetCouncil().keptSum(), 0);
        Checks.due("keptSum of the empty set", emptySetAlone().keptSum(), 0);
        Checks.due("keptSum of NOTHING", family(set(100)).keptSum(), 0);
    }

    /** Seven sets of great sums: all numbers above 0 (or below 0), and all but one of them. */
    static void promise26_theGreatestSums() {
        for (int sign = -1; sign <= 1; sign += 2) {
            SetCouncil council = new SetCouncil();
            for (int left = 0; left < 7; left++) {
                council.clear(0);
                council.fill(0, sign, sign, 50);
                council.remove(0, sign * left);
                Checks.due("keep", council.keep(0), true);
            }
            Checks.due("keptSum", council.keptSum(), sign * (7 * 1275 - 21));
        }
    }

    static void promise26_nothingCountsAsZero() {
        Checks.due("keptSum", family(set(100, 1), set(1), set(100)).keptSum(), 2);
    }

    static void promise27_anEmptyFamily() {
        Checks.changesNothing("dropAll", 0, () -> Councils.of(set(1)), SetCouncil::dropAll);
    }

    static void promise27_aFullFamily() {
        SetCouncil council = unionsOfThree();
        Checks.due("dropAll", council.dropAll(), 7);
        Checks.due("kept", council.kept(), 0);
        for (int set = 0; set < 8; set++) {
            Checks.due("isKept of set " + set, council.isKept(set), false);
        }
        Checks.due("set 6 behind that", Snapshot.members(council, 6), "[1 2 3]");
        Checks.due("keep behind that", council.keep(6), true);
        Checks.due("kept", council.kept(), 1);
    }

    static void promise28_setsFrom0To7() {
        Edges.sets(SetCouncil::placeOf, 0, 2);
    }

    static void promise28_noneIfItIsNotHeld() {
        Checks.changesNothing("placeOf in an empty family", -1, SetCouncil::new, council -> council.placeOf(0));
        Checks.changesNothing("placeOf in a family", -1, Councils::edged, council -> council.placeOf(5));
        Checks.changesNothing("placeOf in a full family", -1, Councils::fullFamily, council -> council.placeOf(0));
    }

    static void promise28_fromTheFirstToTheSeventh() {
        int[] places = {3, 5, 6, 1, 2, 4, 0};
        SetCouncil council = unionsOfThree();
        for (int set = 0; set < 7; set++) {
            Checks.due("placeOf set " + set, council.placeOf(set), places[set]);
        }
    }

    static void promise28_theEmptySetIsLast() {
        Checks.due("placeOf the empty set alone", emptySetAlone().placeOf(0), 0);
        Checks.due("placeOf the empty set of seven", chainOfSeven().placeOf(0), 6);
        Checks.due("placeOf the empty set ahead of 50", family(set(), set(50)).placeOf(0), 1);
    }

    /** With one member more a set is ahead, be it the first member by their order or the last one. */
    static void promise28_byOneMember() {
        for (int member : set(100, -50, -49, 11, 12, 13, 14, 49, 50)) {
            SetCouncil council = Councils.fullSet();
            council.dropAll();
            council.copy(1, 0);
            council.remove(1, member);
            for (int first = 0; first < 2; first++) {
                council.dropAll();
                council.keep(first);
                council.keep(1 - first);
                Checks.due("placeOf the set with " + member, council.placeOf(0), 0);
                Checks.due("placeOf the set without " + member, council.placeOf(1), 1);
            }
        }
    }

    /** The first member that just one of both has tells, however many more the other one has behind it. */
    static void promise28_byTheFirstMemberAlone() {
        for (int number = -50; number < 50; number++) {
            SetCouncil council = Councils.of(set(number));
            council.fill(1, number + 1, 1, 101);
            for (int first = 0; first < 2; first++) {
                council.dropAll();
                council.keep(first);
                council.keep(1 - first);
                Checks.due("placeOf " + number, council.placeOf(0), 0);
                Checks.due("placeOf all above " + number, council.placeOf(1), 1);
            }
            council.add(1, 100);
            council.keep(1);
            Checks.due("placeOf what has NOTHING", council.placeOf(1), 0);
            Checks.due("placeOf " + number + " behind it", council.placeOf(0), 1);
        }
    }

    static void promise29_setsFrom0To7() {
        Edges.sets((council, set) -> council.take(set, 1), 2, 2);
    }

    static void promise29_placesFrom0ToTheLast() {
        SetCouncil council = Councils.edged();
        int[] sizes = {3, 2, 2, 1};
        for (int place = 0; place < 4; place++) {
            Checks.due("take of place " + place, council.take(6, place), sizes[place]);
            Checks.due("placeOf what was taken", council.placeOf(6), place);
        }
        for (int place : set(-1, 4, 7, BEYOND[0], BEYOND[1], BEYOND[2], BEYOND[3])) {
            Checks.noSuchElement("take of place " + place, Councils::edged, other -> other.take(0, place));
        }
    }

    static void promise29_placesOfAFullFamily() {
        SetCouncil council = Councils.fullFamily();
        for (int place = 0; place < 7; place++) {
            Checks.due("take of place " + place, council.take(0, place), 1);
            Checks.due("what was taken", council.least(0), place - 20);
        }
        Checks.noSuchElement("take of place 7", Councils::fullFamily, other -> other.take(0, 7));
        Checks.noSuchElement("take of place -1", Councils::fullFamily, other -> other.take(0, -1));
    }

    static void promise29_anEmptyFamilyHasNoPlace() {
        Checks.noSuchElement("take", () -> Councils.of(set(1)), council -> council.take(0, 0));
        SetCouncil council = unionsOfThree();
        council.dropAll();
        Checks.due("take behind dropAll", Checks.outcome(() -> council.take(0, 0)), "throws.NoSuchElementException");
    }

    static void promise29_noPlaceWhereOneWasDropped() {
        SetCouncil council = Councils.fullFamily();
        council.add(2, -14);
        council.drop(2);
        Checks.due("take of the last place", council.take(6, 5), 1);
        Checks.due("what was taken", council.least(6), -15);
        Checks.due("take of the place behind it", Checks.outcome(() -> council.take(6, 6)),
            "throws.NoSuchElementException");
    }

    static void promise29_theEmptyAndTheFullSet() {
        SetCouncil council = Councils.fullSet();
        council.dropAll();
        council.keep(0);
        council.keep(2);
        Checks.due("take of the full set", council.take(1, 0), 102);
        Checks.due("take of the empty set", council.take(1, 1), 0);
        Checks.due("size", council.size(1), 0);
    }

    static void promise29_theSetIsLookedAtFirst() {
        Edges.noSets(Councils::edged, (council, set) -> council.take(set, -1));
        Edges.noSets(SetCouncil::new, (council, set) -> council.take(set, 0));
    }

    static void promise30_howFrom0To2() {
        Edges.range(SetCouncil::spread, 0, 2);
        Checks.illegalArgument("spread by 3 of an empty family", SetCouncil::new, council -> council.spread(3));
        Checks.illegalArgument("spread by -1 of a full family", Councils::fullFamily, council -> council.spread(-1));
    }

    static void promise30_noSets() {
        for (int how = 0; how < 3; how++) {
            int way = how;
            Checks.changesNothing("spread by " + way, 0, () -> Councils.of(set(1)), council -> council.spread(way));
        }
    }

    /** One set alone is no two sets: nothing is put, not even what it leaves without itself. */
    static void promise30_oneSet() {
        for (int how = 0; how < 3; how++) {
            int way = how;
            Checks.changesNothing("spread by " + way, 0, () -> family(set(1)), council -> council.spread(way));
            Checks.changesNothing("spread of the empty set by " + way, 0, EdgesOfFamilyTest::emptySetAlone,
                council -> council.spread(way));
        }
    }

    static void promise30_withoutInBothWays() {
        SetCouncil council = family(set(1), set(1, 2));
        Checks.due("spread by WITHOUT", council.spread(2), 2);
        holds(council, "[1 2][1][2][]");
        council = family(set(2), set(1, 2));
        Checks.due("spread by WITHOUT", council.spread(2), 2);
        holds(council, "[1 2][1][2][]");
    }

    static void promise30_theFamilyAsItIsNow() {
        SetCouncil council = family(set(1), set(2), set(3));
        Checks.due("spread by UNION", council.spread(0), 3);
        holds(council, "[1 2][1 3][1][2 3][2][3]");
        Checks.due("spread by UNION again", council.spread(0), 1);
        Checks.due("spread by UNION once more", council.spread(0), 0);
        council = family(set(1, 2), set(2, 3), set(1, 3));
        Checks.due("spread by MEET", council.spread(1), 3);
        Checks.due("kept, without the empty set", council.kept(), 6);
        Checks.due("spread by MEET again", council.spread(1), 1);
    }

    static void promise30_upToSevenSets() {
        SetCouncil council = family(set(1), set(2), set(3), set(1, 2));
        Checks.due("spread by UNION", council.spread(0), 3);
        Checks.due("kept", council.kept(), 7);
        council = family(set(1), set(2), set(3), set(4), set(5), set(6));
        Checks.due("spread by MEET", council.spread(1), 1);
        holds(council, "[1][2][3][4][5][6][]");
        council = family(set(1), set(1, 2), set(3), set(4), set(5));
        Checks.due("spread by WITHOUT", council.spread(2), 2);
        holds(council, "[1 2][1][2][3][4][5][]");
    }

    static void promise30_noneIfThereWouldBeEight() {
        Checks.changesNothing("spread by UNION", -1,
            () -> family(set(1), set(2), set(3), set(1, 2), set(1, 2, 3, 4)), council -> council.spread(0));
        Checks.changesNothing("spread by MEET", -1, Councils::fullFamily, council -> council.spread(1));
        Checks.changesNothing("spread by WITHOUT", -1,
            () -> family(set(1), set(1, 2), set(3), set(4), set(5), set(6)), council -> council.spread(2));
        Checks.changesNothing("spread to far more", -1, Councils::fullFamily, council -> council.spread(0));
    }

    static void promise30_sevenThatAreClosed() {
        Checks.changesNothing("spread by UNION", 0, EdgesOfFamilyTest::unionsOfThree, council -> council.spread(0));
        Checks.changesNothing("spread by UNION of a chain", 0, EdgesOfFamilyTest::chainOfSeven,
            council -> council.spread(0));
        Checks.changesNothing("spread by MEET of a chain", 0, EdgesOfFamilyTest::chainOfSeven,
            council -> council.spread(1));
        Checks.changesNothing("spread by WITHOUT", 0, Councils::fullFamily, council -> council.spread(2));
    }

    static void promise31_howFrom0To2() {
        Edges.range(SetCouncil::isClosed, 0, 2);
        Checks.illegalArgument("isClosed by 3 of an empty family", SetCouncil::new, council -> council.isClosed(3));
        Checks.illegalArgument("isClosed by -1 of a full family", Councils::fullFamily,
            council -> council.isClosed(-1));
    }

    static void promise31_noSets() {
        for (int how = 0; how < 3; how++) {
            int way = how;
            Checks.changesNothing("isClosed by " + way, true, () -> Councils.of(set(1)),
                council -> council.isClosed(way));
        }
    }

    /** One set alone is no two sets. */
    static void promise31_oneSet() {
        for (int how = 0; how < 3; how++) {
            int way = how;
            Checks.changesNothing("isClosed by " + way, true, () -> family(set(1)), council -> council.isClosed(way));
            Checks.changesNothing("isClosed of the empty set by " + way, true, EdgesOfFamilyTest::emptySetAlone,
                council -> council.isClosed(way));
        }
    }

    static void promise31_withoutInBothWays() {
        Checks.due("isClosed without 1 - 12", family(set(1), set(1, 2), set(2)).isClosed(2), false);
        Checks.due("isClosed without 12 - 1", family(set(1), set(1, 2), set()).isClosed(2), false);
        Checks.due("isClosed without 12 - 2", family(set(2), set(1, 2), set()).isClosed(2), false);
        Checks.due("isClosed with both", family(set(1), set(1, 2), set(2), set()).isClosed(2), true);
    }

    static void promise31_oneSetIsMissing() {
        SetCouncil council = unionsOfThree();
        Checks.due("isClosed by UNION", council.isClosed(0), true);
        Checks.due("isClosed by MEET", council.isClosed(1), false);
        Checks.due("isClosed by WITHOUT", council.isClosed(2), false);
        council.drop(6);
        Checks.due("isClosed by UNION without the union of all", council.isClosed(0), false);
        Checks.due("isClosed by UNION of singles", Councils.fullFamily().isClosed(0), false);
        Checks.due("isClosed by MEET of singles", Councils.fullFamily().isClosed(1), false);
        Checks.due("isClosed by WITHOUT of singles", Councils.fullFamily().isClosed(2), true);
    }

    static void promise32_noneAndOne() {
        Checks.changesNothing("isChain of none", true, SetCouncil::new, SetCouncil::isChain);
        Checks.changesNothing("isChain of the empty set", true, EdgesOfFamilyTest::emptySetAlone, SetCouncil::isChain);
        Checks.changesNothing("isChain of one", true, () -> family(set(1)), SetCouncil::isChain);
    }

    static void promise32_two() {
        Checks.due("isChain with the empty set", family(set(), set(1)).isChain(), true);
        Checks.due("isChain of a set and a greater one", family(set(1), set(100, 1)).isChain(), true);
        Checks.due("isChain of two apart", family(set(1), set(2)).isChain(), false);
        Checks.due("isChain of a set and a greater one apart", family(set(1), set(2, 3)).isChain(), false);
    }

    static void promise32_seven() {
        SetCouncil council = chainOfSeven();
        Checks.due("isChain", council.isChain(), true);
        council.drop(6);
        council.remove(6, 1);
        council.keep(6);
        Checks.due("isChain but for one pair", council.isChain(), false);
    }

    static void promise33_noneAndOne() {
        Checks.changesNothing("primes of none", 0, SetCouncil::new, SetCouncil::primes);
        Checks.changesNothing("primes of one", 1, () -> family(set(100)), SetCouncil::primes);
    }

    /** "the union of none is the empty set": so that the empty set is never prime. */
    static void promise33_theEmptySet() {
        Checks.changesNothing("primes of the empty set", 0, EdgesOfFamilyTest::emptySetAlone, SetCouncil::primes);
        Checks.due("primes of the empty set and another one", family(set(), set(1)).primes(), 1);
        Checks.due("primes of a chain", chainOfSeven().primes(), 6);
    }

    static void promise33_all() {
        Checks.due("primes of seven singles", Councils.fullFamily().primes(), 7);
        Checks.due("primes of unions", unionsOfThree().primes(), 3);
    }

    static void promise33_byOneMember() {
        for (int member : set(100, -50, 12, 13, 50)) {
            SetCouncil council = Councils.of(set(1), set(2), set(1, 2, member));
            council.keep(0);
            council.keep(1);
            council.keep(2);
            Checks.due("primes when the union lacks " + member, council.primes(), 3);
            council.add(0, member);
            council.keep(0);
            Checks.due("primes when the union has " + member, council.primes(), 3);
            Checks.due("kept", council.kept(), 4);
        }
    }

    static void promise34_setsFrom0To7() {
        Edges.sets(SetCouncil::primesWithin, 1, 2);
    }

    static void promise34_noSets() {
        Checks.changesNothing("primesWithin of none", 0, () -> Councils.of(set(1)), council -> council.primesWithin(0));
        Checks.changesNothing("primesWithin the empty set", 0, Councils::edged, council -> council.primesWithin(2));
        Checks.changesNothing("primesWithin the empty set, which is kept", 0, EdgesOfFamilyTest::emptySetAlone,
            council -> council.primesWithin(0));
    }

    static void promise34_allSets() {
        Checks.due("primesWithin the full set", Councils.fullSet().primesWithin(0), 3);
        SetCouncil council = Councils.fullFamily();
        council.fill(0, -20, 1, 7);
        Checks.due("primesWithin all of seven", council.primesWithin(0), 7);
        council.remove(0, -20);
        Checks.due("primesWithin all but one of seven", council.primesWithin(0), 6);
    }

    static void promise34_aPrimeIsWithinItself() {
        SetCouncil council = unionsOfThree();
        Checks.due("primesWithin a prime", council.primesWithin(0), 1);
        Checks.due("primesWithin a union of two", council.primesWithin(3), 2);
        Checks.due("primesWithin a union of three", council.primesWithin(6), 3);
    }

    static void promise47_alwaysZero() {
        Checks.changesNothing("of none", 0, SetCouncil::new, SetCouncil::familyErrors);
        Checks.changesNothing("of the empty set", 0, EdgesOfFamilyTest::emptySetAlone, SetCouncil::familyErrors);
        Checks.changesNothing("of four", 0, Councils::edged, SetCouncil::familyErrors);
        Checks.changesNothing("of seven singles", 0, Councils::fullFamily, SetCouncil::familyErrors);
        Checks.changesNothing("of seven in a chain", 0, EdgesOfFamilyTest::chainOfSeven, SetCouncil::familyErrors);
        Checks.changesNothing("of seven unions", 0, EdgesOfFamilyTest::unionsOfThree, SetCouncil::familyErrors);
    }
}
