/** Promises 42 to 46: views, walks, calls with no collection, and the laws. */
public final class RefusalTest {
    private static final int[] WRONG_SETS = {-1, 8, Integer.MIN_VALUE, Integer.MAX_VALUE};
    private static final int[] WRONG_MEMBERS = {-51, 51, 99, 101, Integer.MIN_VALUE, Integer.MAX_VALUE};

    public static void main(String[] args) {
        aViewHasWhatTheSetHas();
        viewsOfAllWays();
        views();
        walks();
        nulls();
        laws();
        wrongSets();
        wrongWays();
        wrongMembers();
        Checks.end();
    }

    private static void aViewHasWhatTheSetHas() {
        SetCouncil council = new SetCouncil();
        Checks.due("viewHas of a new council", council.viewHas(0, 3), false);
        council.add(0, 3);
        Checks.due("viewHas behind add", council.viewHas(0, 3), true);
        Checks.due("viewHas of another set", council.viewHas(1, 3), false);
        Checks.due("viewHas of another member", council.viewHas(0, 100), false);
        council.remove(0, 3);
        Checks.due("viewHas behind remove", council.viewHas(0, 3), false);
        council.add(7, 100);
        Checks.due("viewHas NOTHING", council.viewHas(7, 100), true);
    }

    private static void viewsOfAllWays() {
        SetCouncil council = Councils.of(new int[] {1, 2, 100}, new int[] {2, 3, -50, 50});
        council.copy(2, 0);
        Checks.due("viewHas behind copy", council.viewHas(2, 100), true);
        council.unite(2, 1);
        Checks.due("viewHas behind unite", council.viewHas(2, 50), true);
        council.meet(2, 1);
        Checks.due("viewHas behind meet", council.viewHas(2, 100), false);
        council.elect(3, 2);
        Checks.due("viewHas behind elect", council.viewHas(3, -50), true);
        council.keep(1);
        council.take(4, 0);
        Checks.due("viewHas behind take", council.viewHas(4, 50), true);
        Councils.write(council, "f={#};e=b-e;");
        council.run();
        Checks.due("viewHas behind run", council.viewHas(5, 100), true);
        Checks.due("viewHas behind run", council.viewHas(4, 50), false);
        council.fill(6, 0, 1, 2);
        Checks.due("viewHas behind fill", council.viewHas(6, 1), true);
        council.sieve(6, 1, 0);
        Checks.due("viewHas behind sieve", council.viewHas(6, 1), false);
        council.clear(0);
        Checks.due("viewHas behind clear", council.viewHas(0, 1), false);
        council.without(1, 1);
        Checks.due("viewHas behind without", council.viewHas(1, 2), false);
    }

    /** Also where the change would be none: a member that is there or not, sets that are empty or the same. */
    private static void views() {
        int[] members = {100, 1, 3, 50};
        for (int what = 0; what <= 6; what++) {
            for (int member : members) {
                for (int set = 0; set < 8; set++) {
                    SetCouncil council = Councils.of(new int[] {100, 1, 2}, new int[] {1, 2, 3}, new int[] {100, 1, 2},
                        new int[] {50}, new int[] {100});
                    String before = Snapshot.of(council);
                    boolean refused = what != 6 || set < 5;
                    Checks.due("viewRefuses(" + set + ", " + what + ", " + member + ")",
                        council.viewRefuses(set, what, member), refused);
                    Checks.due("what stands behind that", Snapshot.of(council), before);
                }
            }
        }
        SetCouncil none = new SetCouncil();
        Checks.due("viewRefuses of empty sets", none.viewRefuses(1, 2, 0), true);
        Checks.due("viewRefuses to go through an empty set", none.viewRefuses(0, 6, 0), false);
    }

    private static void walks() {
        int[][] members = {{}, {100}, {7}, {-50, 50}, {100, 1, 2, 3}};
        for (int[] each : members) {
            SetCouncil council = Councils.of(new int[] {9}, each);
            String before = Snapshot.of(council);
            String which = java.util.Arrays.toString(each);
            Checks.due("walkRefuses 0 of " + which, council.walkRefuses(1, 0), 1);
            Checks.due("walkRefuses 1 of " + which, council.walkRefuses(1, 1), 2);
            Checks.due("walkRefuses 2 of " + which, council.walkRefuses(1, 2), each.length == 0 ? 1 : 2);
            Checks.due("what stands behind that", Snapshot.of(council), before);
        }
        SetCouncil full = new SetCouncil();
        full.fill(7, -50, 1, 101);
        full.add(7, 100);
        Checks.due("walkRefuses 0 of all members", full.walkRefuses(7, 0), 1);
        Checks.due("walkRefuses 2 of all members", full.walkRefuses(7, 2), 2);
        Checks.due("size behind that", full.size(7), 102);
    }

    private static void nulls() {
        for (int set = 0; set < 8; set++) {
            for (int what = 0; what <= 3; what++) {
                SetCouncil council = Councils.furnished();
                String before = Snapshot.of(council);
                Checks.due("nullRefuses(" + set + ", " + what + ")", council.nullRefuses(set, what), true);
                Checks.due("what stands behind that", Snapshot.of(council), before);
            }
        }
    }

    private static void laws() {
        SetCouncil council = Councils.of(new int[] {100, 1, 2, 3}, new int[] {2, 3, 4}, new int[] {3, 4, 5, -50, 50},
            new int[] {2, 3}, new int[] {100});
        String before = Snapshot.of(council);
        int calls = 0;
        for (int a = 0; a < 6; a++) {
            for (int b = 0; b < 6; b++) {
                for (int c = 0; c < 6; c++) {
                    calls++;
                    Checks.due("lawErrors(" + a + ", " + b + ", " + c + ")", council.lawErrors(a, b, c), 0);
                }
            }
        }
        Checks.due("calls", calls, 216);
        Checks.due("what stands behind that", Snapshot.of(council), before);
        council.fill(6, -50, 1, 101);
        Checks.due("lawErrors of great sets", council.lawErrors(6, 0, 7), 0);
    }

    private static void wrongSets() {
        for (int set : WRONG_SETS) {
            Checks.outOfBounds("viewHas " + set, Councils::furnished, council -> council.viewHas(set, 1));
            Checks.outOfBounds("viewHas 51 " + set, Councils::furnished, council -> council.viewHas(set, 51));
            Checks.outOfBounds("viewRefuses " + set, Councils::furnished, council -> council.viewRefuses(set, 0, 1));
            Checks.outOfBounds("viewRefuses 7 " + set, Councils::furnished, council -> council.viewRefuses(set, 7, 51));
            Checks.outOfBounds("walkRefuses " + set, Councils::furnished, council -> council.walkRefuses(set, 0));
            Checks.outOfBounds("walkRefuses 3 " + set, Councils::furnished, council -> council.walkRefuses(set, 3));
            Checks.outOfBounds("nullRefuses " + set, Councils::furnished, council -> council.nullRefuses(set, 0));
            Checks.outOfBounds("nullRefuses 4 " + set, Councils::furnished, council -> council.nullRefuses(set, 4));
            Checks.outOfBounds("lawErrors of a " + set, Councils::furnished, council -> council.lawErrors(set, 0, 1));
            Checks.outOfBounds("lawErrors of b " + set, Councils::furnished, council -> council.lawErrors(0, set, 1));
            Checks.outOfBounds("lawErrors of c " + set, Councils::furnished, council -> council.lawErrors(0, 1, set));
        }
    }

    private static void wrongWays() {
        int[] below = {-1, Integer.MIN_VALUE, Integer.MAX_VALUE};
        for (int what : below) {
            wrongWay(what, what, what);
        }
        wrongWay(7, 3, 4);
    }

    private static void wrongWay(int ofView, int ofWalk, int ofNull) {
        for (int set = 0; set < 8; set++) {
            int one = set;
            Checks.illegalArgument("viewRefuses " + ofView, Councils::furnished,
                council -> council.viewRefuses(one, ofView, 1));
            Checks.illegalArgument("walkRefuses " + ofWalk, Councils::furnished,
                council -> council.walkRefuses(one, ofWalk));
            Checks.illegalArgument("nullRefuses " + ofNull, Councils::furnished,
                council -> council.nullRefuses(one, ofNull));
        }
    }

    private static void wrongMembers() {
        for (int member : WRONG_MEMBERS) {
            Checks.illegalArgument("viewHas " + member, Councils::furnished, council -> council.viewHas(0, member));
            for (int what = 0; what <= 6; what++) {
                int way = what;
                Checks.illegalArgument("viewRefuses(0, " + way + ", " + member + ")", Councils::furnished,
                    council -> council.viewRefuses(0, way, member));
                Checks.illegalArgument("viewRefuses(2, " + way + ", " + member + "), an empty set",
                    Councils::furnished, council -> council.viewRefuses(2, way, member));
            }
        }
    }
}
