/** The boundary cases of promises 1 to 11, and 16: a new object, and what is done with one set. */
public final class EdgesOfMembersTest {
    public static void main(String[] args) {
        Edges.run(EdgesOfMembersTest.class);
    }

    private static SetCouncil of(int... members) {
        return Councils.of(members);
    }

    private static void members(String what, SetCouncil council, String want) {
        Checks.due(what, Snapshot.members(council, 0), want);
    }

    /** All 102 members, by their order. */
    private static int memberNumber(int index) {
        return index == 0 ? 100 : index - 51;
    }

    static void promise1_eightEmptySets() {
        SetCouncil council = new SetCouncil();
        for (int set = 0; set < 8; set++) {
            Checks.due("size of " + set, council.size(set), 0);
            Checks.due("sum of " + set, council.sum(set), 0);
        }
        for (int index = 0; index < 102; index++) {
            Checks.due("vote on " + memberNumber(index), council.vote(memberNumber(index)), 0);
        }
        Edges.noSets(SetCouncil::new, SetCouncil::size);
    }

    static void promise1_anEmptyFamily() {
        SetCouncil council = new SetCouncil();
        Checks.due("kept", council.kept(), 0);
        Checks.due("keptSum", council.keptSum(), 0);
        Checks.due("isKept of the empty set", council.isKept(0), false);
        Checks.due("placeOf the empty set", council.placeOf(0), -1);
        Checks.due("dropAll", council.dropAll(), 0);
    }

    static void promise1_anEmptyText() {
        SetCouncil council = new SetCouncil();
        Checks.due("textLength", council.textLength(), 0);
        Checks.due("errorKind", council.errorKind(), 0);
        Checks.due("errorPlace", council.errorPlace(), -1);
        Checks.due("run", council.run(), 0);
        Checks.due("clearText", council.clearText(), 0);
    }

    static void promise1_notWhatAnotherCouncilHas() {
        SetCouncil first = Councils.fullFamily();
        first.example(1);
        first.run();
        SetCouncil second = new SetCouncil();
        Checks.due("a new council", Snapshot.all(second), Snapshot.all(new SetCouncil()));
        second.add(0, 50);
        second.keep(0);
        second.clearText();
        Checks.due("the first council's family", first.kept(), 7);
        Checks.due("the first council's text", first.textLength(), 86);
        Checks.due("the first council's set", first.has(0, 50), false);
    }

    /** "An object is used for at most 512 calls": the last one of them answers as the first ones do. */
    static void promise1_upTo512Calls() {
        SetCouncil council = new SetCouncil();
        for (int call = 1; call <= 508; call += 2) {
            Checks.due("call " + call, council.add(7, 50), true);
            Checks.due("call " + (call + 1), council.remove(7, 50), true);
        }
        Checks.due("call 509", council.example(2), 65);
        Checks.due("call 510", council.run(), 8);
        Checks.due("call 511", council.keep(7), true);
        Checks.due("call 512", council.placeOf(7), 0);
    }

    static void promise2_setsFrom0To7() {
        Edges.sets((council, set) -> council.add(set, 50), true, false);
    }

    static void promise2_eachMemberOnce() {
        for (int index = 0; index < 102; index++) {
            int member = memberNumber(index);
            SetCouncil council = new SetCouncil();
            Checks.due("add " + member, council.add(0, member), true);
            Checks.due("add " + member + " again", council.add(0, member), false);
            members("the set", council, "[" + member + "]");
        }
    }

    static void promise2_noOtherMember() {
        Edges.noMembers((council, member) -> council.add(0, member));
    }

    static void promise2_nothingComesToAFullSet() {
        SetCouncil council = Councils.fullSet();
        for (int index = 0; index < 102; index++) {
            Checks.due("add " + memberNumber(index), council.add(0, memberNumber(index)), false);
        }
        Checks.due("size", council.size(0), 102);
    }

    static void promise2_theSetIsLookedAtFirst() {
        Edges.noSets(Councils::edged, (council, set) -> council.add(set, 51));
    }

    static void promise3_setsFrom0To7() {
        Edges.sets((council, set) -> council.remove(set, 50), false, true);
    }

    static void promise3_nothingGoesFromAnEmptySet() {
        SetCouncil council = new SetCouncil();
        for (int index = 0; index < 102; index++) {
            Checks.due("remove " + memberNumber(index), council.remove(0, memberNumber(index)), false);
        }
        Checks.due("size", council.size(0), 0);
    }

    static void promise3_aFullSetUpToItsLastMember() {
        SetCouncil council = Councils.fullSet();
        for (int index = 0; index < 102; index++) {
            Checks.due("remove " + memberNumber(index), council.remove(0, memberNumber(index)), true);
            Checks.due("remove " + memberNumber(index) + " again", council.remove(0, memberNumber(index)), false);
            Checks.due("size", council.size(0), 101 - index);
        }
    }

    static void promise3_noOtherMember() {
        Edges.noMembers((council, member) -> council.remove(0, member));
    }

    static void promise3_theSetIsLookedAtFirst() {
        Edges.noSets(Councils::edged, (council, set) -> council.remove(set, -51));
    }

    static void promise4_setsFrom0To7() {
        Edges.sets((council, set) -> council.has(set, 50), false, true);
    }

    static void promise4_anEmptySetHasNone() {
        SetCouncil council = new SetCouncil();
        for (int index = 0; index < 102; index++) {
            Checks.due("has " + memberNumber(index), council.has(0, memberNumber(index)), false);
        }
    }

    static void promise4_aFullSetHasAll() {
        SetCouncil council = Councils.fullSet();
        for (int index = 0; index < 102; index++) {
            Checks.due("has " + memberNumber(index), council.has(0, memberNumber(index)), true);
        }
    }

    static void promise4_noOtherMember() {
        Edges.noMembers((council, member) -> council.has(0, member));
        Checks.illegalArgument("has 51 of a full set", Councils::fullSet, council -> council.has(0, 51));
        Checks.illegalArgument("has -51 of an empty set", SetCouncil::new, council -> council.has(0, -51));
    }

    static void promise4_theSetIsLookedAtFirst() {
        Edges.noSets(Councils::edged, (council, set) -> council.has(set, 101));
    }

    static void promise5_setsFrom0To7() {
        Edges.sets(SetCouncil::size, 3, 2);
    }

    static void promise5_fromEmptyToFull() {
        SetCouncil council = new SetCouncil();
        Checks.due("size of the empty set", council.size(0), 0);
        for (int index = 0; index < 102; index++) {
            council.add(0, memberNumber(index));
            Checks.due("size with " + memberNumber(index), council.size(0), index + 1);
        }
    }

    static void promise6_setsFrom0To7() {
        Edges.sets(SetCouncil::sum, -47, 57);
    }

    static void promise6_zeroWithoutANumber() {
        Checks.due("sum of the empty set", of().sum(0), 0);
        Checks.due("sum of NOTHING", of(100).sum(0), 0);
        Checks.due("sum of 0", of(0).sum(0), 0);
    }

    static void promise6_nothingCountsAsZero() {
        Checks.due("sum of NOTHING and 50", of(100, 50).sum(0), 50);
        Checks.due("sum of NOTHING and -50", of(100, -50).sum(0), -50);
    }

    static void promise6_theLeastAndTheGreatest() {
        SetCouncil council = new SetCouncil();
        council.fill(0, -50, 1, 50);
        Checks.due("sum of all below 0", council.sum(0), -1275);
        council.fill(0, 1, 1, 50);
        Checks.due("sum of all but 0", council.sum(0), 0);
        council.clear(0);
        council.fill(0, 1, 1, 50);
        Checks.due("sum of all above 0", council.sum(0), 1275);
        Checks.due("sum of all members", Councils.fullSet().sum(0), 0);
    }

    static void promise7_setsFrom0To7() {
        Edges.sets(SetCouncil::clear, 3, 2);
    }

    static void promise7_anEmptySet() {
        Checks.changesNothing("clear", 0, Councils::edged, council -> council.clear(2));
    }

    static void promise7_aFullSet() {
        SetCouncil council = Councils.fullSet();
        Checks.due("clear", council.clear(0), 102);
        members("the set", council, "[]");
        Checks.due("another set", council.size(1), 2);
    }

    static void promise8_setsFrom0To7() {
        Edges.sets((council, set) -> council.fill(set, 50, 1, 1), 1, 0);
    }

    static void promise8_firstFromMinus50To50() {
        Edges.range((council, first) -> council.fill(0, first, 1, 1), -50, 50);
        SetCouncil council = of();
        Checks.due("fill from -50", council.fill(0, -50, 1, 1), 1);
        Checks.due("fill from 50", council.fill(0, 50, 1, 1), 1);
        members("the set", council, "[-50 50]");
        Checks.illegalArgument("fill from NOTHING", Councils::edged, other -> other.fill(0, 100, 1, 1));
    }

    static void promise8_stepFromMinus100To100() {
        Edges.range((council, step) -> council.fill(0, 0, step, 1), -100, 100);
        SetCouncil council = of();
        Checks.due("fill by 100", council.fill(0, -50, 100, 2), 2);
        members("the set", council, "[-50 50]");
        council.clear(0);
        Checks.due("fill by -100", council.fill(0, 50, -100, 2), 2);
        members("the set", council, "[-50 50]");
    }

    static void promise8_manyFrom0To101() {
        Edges.range((council, many) -> council.fill(0, 0, 1, many), 0, 101);
        SetCouncil council = of();
        Checks.due("fill by 101 numbers", council.fill(0, -50, 1, 101), 101);
        Checks.due("least", council.least(0), -50);
        Checks.due("greatest", council.greatest(0), 50);
        council.clear(0);
        Checks.due("fill by 100 numbers", council.fill(0, -50, 1, 100), 100);
        Checks.due("greatest", council.greatest(0), 49);
    }

    static void promise8_noNumbersAtAll() {
        Checks.changesNothing("fill by 0 numbers", 0, Councils::edged, council -> council.fill(1, 50, 1, 0));
        Checks.changesNothing("fill an empty set by 0 numbers", 0, Councils::edged, council -> council.fill(2, 1, 1, 0));
    }

    static void promise8_stepZeroIsOneNumber() {
        SetCouncil council = of();
        Checks.due("fill by 0", council.fill(0, 7, 0, 101), 1);
        Checks.due("fill by 0 again", council.fill(0, 7, 0, 101), 0);
        members("the set", council, "[7]");
    }

    static void promise8_numbersOutsideAreLeftOut() {
        SetCouncil council = of();
        Checks.due("fill beyond 50", council.fill(0, 49, 1, 101), 2);
        members("the set", council, "[49 50]");
        council.clear(0);
        Checks.due("fill below -50", council.fill(0, -49, -1, 101), 2);
        members("the set", council, "[-50 -49]");
        council.clear(0);
        Checks.due("fill from 50 by 1", council.fill(0, 50, 1, 101), 1);
        Checks.due("fill from -50 by -1", council.fill(0, -50, -1, 101), 1);
        Checks.due("fill from 49 by 2", council.fill(0, 49, 2, 2), 1);
        members("the set", council, "[-50 49 50]");
    }

    /** The numbers come to 10050 and to -10050; none of them comes back by a wrap-around. */
    static void promise8_farNumbersDoNotComeBack() {
        for (int step = 90; step <= 100; step++) {
            SetCouncil council = of();
            Checks.due("fill upwards by " + step, council.fill(0, 0, step, 101), 1);
            Checks.due("fill downwards by " + step, council.fill(0, 0, -step, 101), 0);
            members("the set", council, "[0]");
        }
    }

    static void promise8_the100thIsNotNothing() {
        SetCouncil council = of();
        council.fill(0, 0, 100, 101);
        council.fill(0, 50, 50, 101);
        council.fill(0, -50, 1, 101);
        Checks.due("has NOTHING", council.has(0, 100), false);
        Checks.due("size", council.size(0), 101);
    }

    static void promise8_thoseThatAreThereDoNotCount() {
        SetCouncil council = of(100, 2, 4);
        Checks.due("fill", council.fill(0, 1, 1, 5), 3);
        members("the set", council, "[100 1 2 3 4 5]");
        Checks.due("fill a full set", Councils.fullSet().fill(0, -50, 1, 101), 0);
        council = of();
        council.fill(0, -50, 1, 101);
        Checks.due("fill a set that lacks NOTHING alone", council.fill(0, -50, 1, 101), 0);
    }

    static void promise8_theSetIsLookedAtFirst() {
        Edges.noSets(Councils::edged, (council, set) -> council.fill(set, 51, 101, 102));
    }

    static void promise8_refusedIfNoNumberWouldComeToo() {
        Checks.illegalArgument("fill by 0 from 51", Councils::edged, council -> council.fill(0, 51, 1, 0));
        Checks.illegalArgument("fill by 0 with step 101", Councils::edged, council -> council.fill(0, 0, 101, 0));
        Checks.illegalArgument("fill 102 times step 0", Councils::edged, council -> council.fill(0, 0, 0, 102));
    }

    static void promise9_setsFrom0To7() {
        Edges.sets((council, set) -> council.memberAt(set, 1), -50, 50);
    }

    static void promise9_fromTheFirstToTheLast() {
        SetCouncil council = of(50, -50, 0, 100);
        int[] order = {100, -50, 0, 50};
        for (int index = 0; index < 4; index++) {
            Checks.due("memberAt " + index, council.memberAt(0, index), order[index]);
        }
        for (int index : new int[] {-1, 4, 5, 256, 65536, Integer.MIN_VALUE, Integer.MAX_VALUE}) {
            Checks.noSuchElement("memberAt " + index, () -> of(50, -50, 0, 100), other -> other.memberAt(0, index));
        }
    }

    static void promise9_ofAFullSet() {
        SetCouncil council = Councils.fullSet();
        for (int index = 0; index < 102; index++) {
            Checks.due("memberAt " + index, council.memberAt(0, index), memberNumber(index));
        }
        Checks.noSuchElement("memberAt 102", Councils::fullSet, other -> other.memberAt(0, 102));
        Checks.noSuchElement("memberAt -1", Councils::fullSet, other -> other.memberAt(0, -1));
    }

    static void promise9_ofAnEmptySet() {
        Checks.noSuchElement("memberAt 0", Councils::edged, council -> council.memberAt(2, 0));
        Checks.noSuchElement("memberAt -1", Councils::edged, council -> council.memberAt(2, -1));
    }

    static void promise9_theSetIsLookedAtFirst() {
        Edges.noSets(Councils::edged, (council, set) -> council.memberAt(set, -1));
        Edges.noSets(SetCouncil::new, (council, set) -> council.memberAt(set, 0));
    }

    static void promise10_setsFrom0To7() {
        Edges.sets(SetCouncil::least, -50, 7);
    }

    static void promise10_eachNumberAlone() {
        for (int number = -50; number <= 50; number++) {
            Checks.due("least of " + number, of(number).least(0), number);
            Checks.due("least of NOTHING and " + number, of(100, number).least(0), number);
            Checks.due("least of 50 and " + number, of(50, number).least(0), number);
        }
        Checks.due("least of all members", Councils.fullSet().least(0), -50);
    }

    static void promise10_withoutANumber() {
        Checks.noSuchElement("least of an empty set", Councils::edged, council -> council.least(2));
        Checks.noSuchElement("least of NOTHING", Councils::edged, council -> council.least(4));
    }

    static void promise11_setsFrom0To7() {
        Edges.sets(SetCouncil::greatest, 3, 50);
    }

    static void promise11_eachNumberAlone() {
        for (int number = -50; number <= 50; number++) {
            Checks.due("greatest of " + number, of(number).greatest(0), number);
            Checks.due("greatest of NOTHING and " + number, of(100, number).greatest(0), number);
            Checks.due("greatest of -50 and " + number, of(-50, number).greatest(0), number);
        }
        Checks.due("greatest of all members", Councils.fullSet().greatest(0), 50);
    }

    static void promise11_withoutANumber() {
        Checks.noSuchElement("greatest of an empty set", Councils::edged, council -> council.greatest(2));
        Checks.noSuchElement("greatest of NOTHING", Councils::edged, council -> council.greatest(4));
    }

    static void promise16_setsFrom0To7() {
        Edges.sets((council, set) -> council.sieve(set, 2, 0), 1, 1);
    }

    static void promise16_modulusFrom1To100() {
        Edges.range((council, modulus) -> council.sieve(0, modulus, 0), 1, 100);
        SetCouncil council = of(-50, -1, 0, 1, 50);
        Checks.due("sieve by 100, rest 0", council.sieve(0, 100, 0), 1);
        members("the set", council, "[-50 -1 1 50]");
        Checks.due("sieve by 1, rest 0", council.sieve(0, 1, 0), 4);
        members("the set", council, "[]");
    }

    static void promise16_restFrom0To99() {
        Edges.range((council, rest) -> council.sieve(0, 100, rest), 0, 99);
        SetCouncil council = of(-50, -2, -1, 0, 1, 49, 50);
        Checks.due("sieve by 100, rest 99", council.sieve(0, 100, 99), 1);
        members("the set", council, "[-50 -2 0 1 49 50]");
        Checks.due("sieve by 100, rest 50", council.sieve(0, 100, 50), 2);
        members("the set", council, "[-2 0 1 49]");
    }

    static void promise16_aRestThatNoNumberHas() {
        Checks.changesNothing("sieve by 1, rest 1", 0, Councils::edged, council -> council.sieve(0, 1, 1));
        Checks.changesNothing("sieve by 3, rest 3", 0, Councils::edged, council -> council.sieve(0, 3, 3));
        Checks.changesNothing("sieve by 2, rest 99", 0, Councils::edged, council -> council.sieve(0, 2, 99));
    }

    static void promise16_restsOfNumbersBelowZero() {
        SetCouncil council = of(-4, -3, -2, -1, 0, 1, 2, 3, 4);
        Checks.due("sieve by 3, rest 2", council.sieve(0, 3, 2), 3);
        members("the set", council, "[-3 -2 0 1 3 4]");
        Checks.due("sieve by 3, rest 1", council.sieve(0, 3, 1), 3);
        members("the set", council, "[-3 0 3]");
        Checks.due("sieve by 3, rest 0", council.sieve(0, 3, 0), 3);
    }

    /** NOTHING is no number, though 100 has the rest 0 by 1, 2, 4, 5, 10 and 100. */
    static void promise16_nothingStays() {
        for (int modulus = 1; modulus <= 100; modulus++) {
            SetCouncil council = of(100);
            Checks.due("sieve by " + modulus, council.sieve(0, modulus, 100 % modulus), 0);
            members("the set", council, "[100]");
        }
        SetCouncil full = Councils.fullSet();
        Checks.due("sieve a full set by 1", full.sieve(0, 1, 0), 101);
        members("the set", full, "[100]");
    }

    static void promise16_anEmptySet() {
        Checks.changesNothing("sieve", 0, Councils::edged, council -> council.sieve(2, 1, 0));
    }

    static void promise16_theSetIsLookedAtFirst() {
        Edges.noSets(Councils::edged, (council, set) -> council.sieve(set, 0, 100));
    }

    static void promise16_anEmptySetIsRefusedToo() {
        Checks.illegalArgument("sieve by 0", Councils::edged, council -> council.sieve(2, 0, 0));
        Checks.illegalArgument("sieve with rest 100", Councils::edged, council -> council.sieve(2, 100, 100));
    }
}
