/** Counts and prints the answers that are not due, and ends a test with exit code 1 if there was one. */
final class Checks {
    /** Code that may throw. */
    interface Call {
        Object answer();
    }

    /** Makes a new council for a call, so that one call's fault does not show in another one. */
    interface Maker {
        SetCouncil make();
    }

    /** A call on a council. */
    interface CouncilCall {
        Object answer(SetCouncil council);
    }

    private static int checked = 0;
    private static int wrong = 0;
    private static String test = "";

    private Checks() {
    }

    /** What is not as due from now on is told with the name of this test. */
    static void begin(String name) {
        test = name + ": ";
    }

    static void due(String what, Object got, Object want) {
        checked++;
        if (!want.equals(got)) {
            wrong++;
            System.out.println(test + what + " answered " + got + ", due is " + want);
        }
    }

    /** What a call answers, or the exception that it throws, as "throws." and its name. */
    static Object outcome(Call call) {
        try {
            return call.answer();
        } catch (RuntimeException thrown) {
            return "throws." + thrown.getClass().getSimpleName();
        }
    }

    /** The call must throw just this exception and change nothing that a caller can see. */
    static void refused(String what, Class<? extends RuntimeException> want, Maker maker, CouncilCall call) {
        SetCouncil council = maker.make();
        due(what, outcome(() -> call.answer(council)), "throws." + want.getSimpleName());
        due("what stands after " + what, Snapshot.all(council), Snapshot.all(maker.make()));
    }

    /** The call must have this answer and change nothing that a caller can see. */
    static void changesNothing(String what, Object want, Maker maker, CouncilCall call) {
        SetCouncil council = maker.make();
        due(what, outcome(() -> call.answer(council)), want);
        due("what stands after " + what, Snapshot.all(council), Snapshot.all(maker.make()));
    }

    static void outOfBounds(String what, Maker maker, CouncilCall call) {
        refused(what, IndexOutOfBoundsException.class, maker, call);
    }

    static void illegalArgument(String what, Maker maker, CouncilCall call) {
        refused(what, IllegalArgumentException.class, maker, call);
    }

    static void illegalState(String what, Maker maker, CouncilCall call) {
        refused(what, IllegalStateException.class, maker, call);
    }

    static void noSuchElement(String what, Maker maker, CouncilCall call) {
        refused(what, java.util.NoSuchElementException.class, maker, call);
    }

    static void end() {
        System.out.println(checked + " answers checked, " + wrong + " not as due");
        if (wrong != 0 || checked == 0) {
            System.exit(1);
        }
    }
}
