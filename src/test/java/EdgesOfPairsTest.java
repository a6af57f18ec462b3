/** The boundary cases of promises 12 to 15, and 17 to 19: what is done with two sets. */
public final class EdgesOfPairsTest {
    public static void main(String[] args) {
        Edges.run(EdgesOfPairsTest.class);
    }

    private static int[] set(int... members) {
        return members;
    }

    private static void members(String what, SetCouncil council, int set, String want) {
        Checks.due(what, Snapshot.members(council, set), want);
    }

    /** The set 0 lacks just one member of all, the set 1 has just that one. */
    private static SetCouncil allBut(int member) {
        SetCouncil council = new SetCouncil();
        council.fill(0, -50, 1, 101);
        council.add(0, 100);
        council.remove(0, member);
        council.add(1, member);
        return council;
    }

    private static int[] edgeMembers() {
        return set(100, -50, -1, 0, 12, 13, 14, 50);
    }

    static void promise12_bothSetsFrom0To7() {
        Edges.pairs(SetCouncil::unite);
    }

    static void promise12_theSameOne() {
        Checks.changesNothing("unite 0 and 0", false, Councils::edged, council -> council.unite(0, 0));
        Checks.changesNothing("unite an empty set with itself", false, Councils::edged, council -> council.unite(2, 2));
    }

    static void promise12_withAnEmptySet() {
        Checks.changesNothing("unite with an empty set", false, Councils::edged, council -> council.unite(0, 2));
        Checks.changesNothing("unite two empty sets", false, Councils::edged, council -> council.unite(2, 6));
        SetCouncil council = Councils.of(set(), set(100, 5));
        Checks.due("unite an empty set", council.unite(0, 1), true);
        members("the set", council, 0, "[100 5]");
        members("the other one", council, 1, "[100 5]");
    }

    static void promise12_byOneMember() {
        for (int member : edgeMembers()) {
            SetCouncil council = allBut(member);
            Checks.due("unite with " + member, council.unite(0, 1), true);
            Checks.due("size", council.size(0), 102);
            Checks.due("unite with " + member + " again", council.unite(0, 1), false);
        }
    }

    static void promise13_bothSetsFrom0To7() {
        Edges.pairs(SetCouncil::meet);
    }

    static void promise13_theSameOne() {
        Checks.changesNothing("meet 0 and 0", false, Councils::edged, council -> council.meet(0, 0));
        Checks.changesNothing("meet of an empty set with itself", false, Councils::edged, council -> council.meet(2, 2));
    }

    static void promise13_withAnEmptySet() {
        Checks.changesNothing("meet of an empty set", false, Councils::edged, council -> council.meet(2, 0));
        Checks.changesNothing("meet of two empty sets", false, Councils::edged, council -> council.meet(2, 6));
        SetCouncil council = Councils.of(set(100, 5));
        Checks.due("meet with an empty set", council.meet(0, 1), true);
        members("the set", council, 0, "[]");
    }

    static void promise13_byOneMember() {
        for (int member : edgeMembers()) {
            SetCouncil council = allBut(member);
            council.copy(2, 0);
            council.unite(2, 1);
            Checks.due("meet without " + member, council.meet(2, 0), true);
            Checks.due("has " + member, council.has(2, member), false);
            Checks.due("size", council.size(2), 101);
            Checks.due("meet without " + member + " again", council.meet(2, 0), false);
            Checks.due("meet of sets apart", council.meet(2, 1), true);
            members("the set", council, 2, "[]");
        }
    }

    static void promise14_bothSetsFrom0To7() {
        Edges.pairs(SetCouncil::without);
    }

    static void promise14_theSameOne() {
        SetCouncil council = Councils.of(set(100, 5));
        Checks.due("without itself", council.without(0, 0), true);
        members("the set", council, 0, "[]");
        Checks.changesNothing("an empty set without itself", false, Councils::edged, other -> other.without(2, 2));
    }

    static void promise14_withAnEmptySet() {
        Checks.changesNothing("without an empty set", false, Councils::edged, council -> council.without(0, 2));
        Checks.changesNothing("an empty set without another one", false, Councils::edged,
            council -> council.without(2, 0));
    }

    static void promise14_byOneMember() {
        for (int member : edgeMembers()) {
            SetCouncil council = allBut(member);
            Checks.due("without one that it lacks", council.without(0, 1), false);
            council.unite(0, 1);
            Checks.due("without " + member, council.without(0, 1), true);
            Checks.due("has " + member, council.has(0, member), false);
            Checks.due("size", council.size(0), 101);
            Checks.due("without " + member + " again", council.without(0, 1), false);
            members("the other one", council, 1, "[" + member + "]");
        }
    }

    static void promise15_bothSetsFrom0To7() {
        Edges.pairs(SetCouncil::copy);
        SetCouncil council = Councils.edged();
        Checks.due("copy of the last one", council.copy(0, 7), 2);
        Checks.due("isSame", council.isSame(0, 7), true);
    }

    static void promise15_theSameOne() {
        Checks.changesNothing("copy of itself", 3, Councils::edged, council -> council.copy(0, 0));
        Checks.changesNothing("copy of an empty set by itself", 0, Councils::edged, council -> council.copy(2, 2));
    }

    static void promise15_emptyAndFull() {
        SetCouncil council = Councils.fullSet();
        Checks.due("copy of a full set", council.copy(1, 0), 102);
        Checks.due("isSame", council.isSame(0, 1), true);
        Checks.due("copy of an empty set", council.copy(0, 2), 0);
        Checks.due("size", council.size(0), 0);
        Checks.due("the copy ahead of that", council.size(1), 102);
    }

    static void promise17_bothSetsFrom0To7() {
        Edges.pairs(SetCouncil::isWithin);
    }

    static void promise17_itself() {
        Checks.changesNothing("isWithin itself", true, Councils::edged, council -> council.isWithin(0, 0));
        Checks.changesNothing("an empty set isWithin itself", true, Councils::edged, council -> council.isWithin(2, 2));
    }

    static void promise17_emptySets() {
        Checks.changesNothing("an empty set isWithin another one", true, Councils::edged,
            council -> council.isWithin(2, 4));
        Checks.changesNothing("two empty sets", true, Councils::edged, council -> council.isWithin(2, 6));
        Checks.changesNothing("isWithin an empty set", false, Councils::edged, council -> council.isWithin(4, 2));
    }

    static void promise17_byOneMember() {
        for (int member : edgeMembers()) {
            SetCouncil council = allBut(member);
            Checks.due("one that it lacks", council.isWithin(1, 0), false);
            council.copy(2, 0);
            council.add(2, member);
            Checks.due("one isWithin all", council.isWithin(1, 2), true);
            Checks.due("all but one isWithin all", council.isWithin(0, 2), true);
            Checks.due("all isWithin all but one", council.isWithin(2, 0), false);
        }
    }

    static void promise18_bothSetsFrom0To7() {
        Edges.pairs(SetCouncil::isApart);
    }

    static void promise18_itself() {
        Checks.changesNothing("isApart from itself", false, Councils::edged, council -> council.isApart(4, 4));
        Checks.changesNothing("an empty set isApart from itself", true, Councils::edged,
            council -> council.isApart(2, 2));
    }

    static void promise18_emptySets() {
        Checks.changesNothing("isApart from an empty set", true, Councils::edged, council -> council.isApart(0, 2));
        Checks.changesNothing("an empty set isApart", true, Councils::edged, council -> council.isApart(2, 0));
    }

    static void promise18_byOneMember() {
        for (int member : edgeMembers()) {
            SetCouncil council = allBut(member);
            Checks.due("all but one, and that one", council.isApart(0, 1), true);
            council.add(0, member);
            Checks.due("one in common", council.isApart(0, 1), false);
            Checks.due("one in common, the other way", council.isApart(1, 0), false);
        }
    }

    static void promise19_bothSetsFrom0To7() {
        Edges.pairs(SetCouncil::isSame);
    }

    static void promise19_itself() {
        Checks.changesNothing("isSame as itself", true, Councils::edged, council -> council.isSame(0, 0));
    }

    static void promise19_emptySets() {
        Checks.changesNothing("two empty sets", true, Councils::edged, council -> council.isSame(2, 6));
        Checks.changesNothing("isSame as an empty set", false, Councils::edged, council -> council.isSame(4, 2));
        Checks.changesNothing("an empty set isSame", false, Councils::edged, council -> council.isSame(2, 4));
    }

    static void promise19_byOneMember() {
        for (int member : edgeMembers()) {
            SetCouncil council = allBut(member);
            council.copy(2, 0);
            Checks.due("the same members", council.isSame(0, 2), true);
            council.add(2, member);
            Checks.due("one more", council.isSame(0, 2), false);
            Checks.due("one less", council.isSame(2, 0), false);
        }
    }
}
