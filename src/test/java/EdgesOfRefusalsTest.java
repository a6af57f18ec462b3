/** The boundary cases of promises 42 to 46: views, walks, calls with no collection, and the laws. */
public final class EdgesOfRefusalsTest {
    public static void main(String[] args) {
        Edges.run(EdgesOfRefusalsTest.class);
    }

    private static int memberNumber(int index) {
        return index == 0 ? 100 : index - 51;
    }

    static void promise42_setsFrom0To7() {
        Edges.sets((council, set) -> council.viewHas(set, 50), false, true);
    }

    static void promise42_noOtherMember() {
        Edges.noMembers((council, member) -> council.viewHas(0, member));
    }

    static void promise42_emptyAndFullSets() {
        SetCouncil council = Councils.fullSet();
        for (int index = 0; index < 102; index++) {
            Checks.due("viewHas " + memberNumber(index), council.viewHas(0, memberNumber(index)), true);
            Checks.due("viewHas of none " + memberNumber(index), council.viewHas(2, memberNumber(index)), false);
        }
    }

    /** Made when the council was, the view has what the set has later too. */
    static void promise42_whatTheSetHasNow() {
        for (int set = 0; set < 8; set++) {
            SetCouncil council = new SetCouncil();
            Checks.due("viewHas of a new council", council.viewHas(set, 50), false);
            council.add(set, 50);
            Checks.due("viewHas behind add", council.viewHas(set, 50), true);
            council.clear(set);
            Checks.due("viewHas behind clear", council.viewHas(set, 50), false);
            council.add((set + 1) % 8, 50);
            Checks.due("viewHas of another set's member", council.viewHas(set, 50), false);
            council.copy(set, (set + 1) % 8);
            Checks.due("viewHas behind copy", council.viewHas(set, 50), true);
        }
    }

    static void promise42_theSetIsLookedAtFirst() {
        Edges.noSets(Councils::edged, (council, set) -> council.viewHas(set, 51));
    }

    static void promise43_setsFrom0To7() {
        Edges.sets((council, set) -> council.viewRefuses(set, 0, 1), true, true);
        Edges.noSets(Councils::edged, (council, set) -> council.viewRefuses(set, 6, 1));
    }

    static void promise43_whatFrom0To6() {
        Edges.range((council, what) -> council.viewRefuses(0, what, 1), 0, 6);
        Checks.illegalArgument("what 7 of an empty set", Councils::edged, council -> council.viewRefuses(2, 7, 1));
    }

    static void promise43_eachWayIsRefusedAndNothingChanges() {
        for (int what = 0; what <= 6; what++) {
            int way = what;
            for (int set : new int[] {0, 1, 4, 7}) {
                Checks.changesNothing("viewRefuses " + way, true, Councils::edged,
                    council -> council.viewRefuses(set, way, 3));
            }
        }
    }

    /** Refused too where nothing would have changed. */
    static void promise43_changesThatWouldBeNone() {
        Checks.changesNothing("add what is there", true, Councils::edged, council -> council.viewRefuses(0, 0, 3));
        Checks.changesNothing("remove what is not there", true, Councils::edged,
            council -> council.viewRefuses(0, 1, 9));
        Checks.changesNothing("add all of the same set", true, Councils::edged,
            council -> council.viewRefuses(0, 2, 9));
        Checks.changesNothing("keep all of the same set", true, Councils::edged,
            council -> council.viewRefuses(0, 3, 9));
        Checks.changesNothing("remove all of a set apart", true, Councils::edged,
            council -> council.viewRefuses(7, 4, 9));
        for (int what = 2; what <= 4; what++) {
            int way = what;
            Checks.changesNothing("all of an empty set", true, SetCouncil::new,
                council -> council.viewRefuses(0, way, 9));
        }
    }

    static void promise43_anEmptySet() {
        for (int what = 0; what <= 6; what++) {
            int way = what;
            Checks.changesNothing("viewRefuses " + way, way != 6, Councils::edged,
                council -> council.viewRefuses(2, way, 3));
            Checks.changesNothing("viewRefuses of a new council " + way, way != 6, SetCouncil::new,
                council -> council.viewRefuses(0, way, 3));
        }
        SetCouncil council = Councils.of(new int[] {5});
        Checks.due("viewRefuses 6", council.viewRefuses(0, 6, 1), true);
        council.remove(0, 5);
        Checks.due("viewRefuses 6 behind remove", council.viewRefuses(0, 6, 1), false);
    }

    static void promise43_aFullSet() {
        for (int what = 0; what <= 6; what++) {
            SetCouncil council = Councils.fullSet();
            Checks.due("viewRefuses " + what, council.viewRefuses(0, what, 3), true);
            Checks.due("viewRefuses of another one " + what, council.viewRefuses(1, what, 3), true);
            Checks.due("size", council.size(0), 102);
            Checks.due("size of another one", council.size(1), 2);
        }
    }

    static void promise43_oneMember() {
        Checks.changesNothing("of NOTHING alone", true, Councils::edged, council -> council.viewRefuses(4, 6, 3));
        Checks.changesNothing("of 50 alone", true, Councils::edged, council -> council.viewRefuses(3, 6, 3));
    }

    static void promise43_itMustBeAMemberForEachWhat() {
        for (int what = 0; what <= 6; what++) {
            int way = what;
            Edges.noMembers((council, member) -> council.viewRefuses(0, way, member));
            Checks.illegalArgument("51 with an empty set", Councils::edged,
                council -> council.viewRefuses(2, way, 51));
            Checks.due("-50", Councils.edged().viewRefuses(0, way, -50), true);
            Checks.due("50", Councils.edged().viewRefuses(0, way, 50), true);
            Checks.due("NOTHING", Councils.edged().viewRefuses(0, way, 100), true);
        }
    }

    static void promise43_theSetIsLookedAtFirst() {
        Edges.noSets(Councils::edged, (council, set) -> council.viewRefuses(set, 7, 1));
        Edges.noSets(Councils::edged, (council, set) -> council.viewRefuses(set, 0, 51));
        Edges.noSets(Councils::edged, (council, set) -> council.viewRefuses(set, -1, 51));
    }

    static void promise44_setsFrom0To7() {
        Edges.sets((council, set) -> council.walkRefuses(set, 0), 1, 1);
        Edges.sets((council, set) -> council.walkRefuses(set, 1), 2, 2);
    }

    static void promise44_whatFrom0To2() {
        Edges.range((council, what) -> council.walkRefuses(0, what), 0, 2);
        Checks.illegalArgument("what 3 of an empty set", Councils::edged, council -> council.walkRefuses(2, 3));
    }

    static void promise44_anEmptySet() {
        Checks.changesNothing("walkRefuses 0", 1, Councils::edged, council -> council.walkRefuses(2, 0));
        Checks.changesNothing("walkRefuses 1", 2, Councils::edged, council -> council.walkRefuses(2, 1));
        Checks.changesNothing("walkRefuses 2", 1, Councils::edged, council -> council.walkRefuses(2, 2));
    }

    static void promise44_oneMember() {
        for (int set : new int[] {3, 4}) {
            Checks.changesNothing("walkRefuses 0", 1, Councils::edged, council -> council.walkRefuses(set, 0));
            Checks.changesNothing("walkRefuses 1", 2, Councils::edged, council -> council.walkRefuses(set, 1));
            Checks.changesNothing("walkRefuses 2", 2, Councils::edged, council -> council.walkRefuses(set, 2));
        }
    }

    static void promise44_aFullSet() {
        Checks.changesNothing("walkRefuses 0", 1, Councils::fullSet, council -> council.walkRefuses(0, 0));
        Checks.changesNothing("walkRefuses 1", 2, Councils::fullSet, council -> council.walkRefuses(0, 1));
        Checks.changesNothing("walkRefuses 2", 2, Councils::fullSet, council -> council.walkRefuses(0, 2));
    }

    static void promise44_aCopyIsGoneThrough() {
        for (int what = 0; what <= 2; what++) {
            int way = what;
            Checks.changesNothing("walkRefuses " + way, way == 0 ? 1 : 2, Councils::edged,
                council -> council.walkRefuses(0, way));
        }
    }

    static void promise44_theSetIsLookedAtFirst() {
        Edges.noSets(Councils::edged, (council, set) -> council.walkRefuses(set, 3));
        Edges.noSets(Councils::edged, (council, set) -> council.walkRefuses(set, -1));
    }

    static void promise45_setsFrom0To7() {
        Edges.sets((council, set) -> council.nullRefuses(set, 0), true, true);
    }

    static void promise45_whatFrom0To3() {
        Edges.range((council, what) -> council.nullRefuses(0, what), 0, 3);
        Checks.illegalArgument("what 4 of an empty set", Councils::edged, council -> council.nullRefuses(2, 4));
    }

    static void promise45_eachWayIsRefusedAndNothingChanges() {
        for (int what = 0; what <= 3; what++) {
            int way = what;
            Checks.changesNothing("nullRefuses " + way, true, Councils::edged, council -> council.nullRefuses(0, way));
            Checks.changesNothing("nullRefuses of an empty set " + way, true, Councils::edged,
                council -> council.nullRefuses(2, way));
            Checks.changesNothing("nullRefuses of a full set " + way, true, Councils::fullSet,
                council -> council.nullRefuses(0, way));
        }
    }

    static void promise45_theSetIsLookedAtFirst() {
        Edges.noSets(Councils::edged, (council, set) -> council.nullRefuses(set, 4));
        Edges.noSets(Councils::edged, (council, set) -> council.nullRefuses(set, -1));
    }

    static void promise46_eachSetFrom0To7() {
        Edges.sets((council, set) -> council.lawErrors(set, 0, 1), 0, 0);
        Edges.sets((council, set) -> council.lawErrors(0, set, 1), 0, 0);
        Edges.sets((council, set) -> council.lawErrors(0, 1, set), 0, 0);
        Edges.noSets(Councils::edged, (council, set) -> council.lawErrors(set, set, set));
    }

    static void promise46_theSameSets() {
        Checks.changesNothing("all the same", 0, Councils::edged, council -> council.lawErrors(0, 0, 0));
        Checks.changesNothing("a and b the same", 0, Councils::edged, council -> council.lawErrors(0, 0, 1));
        Checks.changesNothing("a and c the same", 0, Councils::edged, council -> council.lawErrors(0, 1, 0));
        Checks.changesNothing("b and c the same", 0, Councils::edged, council -> council.lawErrors(0, 1, 1));
    }

    static void promise46_emptyAndFullSets() {
        Checks.changesNothing("all empty", 0, SetCouncil::new, council -> council.lawErrors(0, 1, 2));
        Checks.changesNothing("two empty", 0, Councils::edged, council -> council.lawErrors(0, 2, 6));
        Checks.changesNothing("one full", 0, Councils::fullSet, council -> council.lawErrors(0, 1, 5));
        Checks.changesNothing("one full, one empty", 0, Councils::fullSet, council -> council.lawErrors(2, 0, 1));
        Checks.changesNothing("all full", 0, Councils::fullSet, council -> council.lawErrors(0, 0, 0));
    }
}
