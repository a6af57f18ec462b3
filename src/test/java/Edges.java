import java.lang.reflect.InvocationTargetException;
import java.lang.reflect.Method;
import java.util.ArrayList;
import java.util.List;

/** Runs tests named after promises, and tries what many promises have in common: the bounds of their parameters. */
final class Edges {
    /** Just outside of the sets 0 to 7, far outside, and what would be 0 if it were cut to fewer bits. */
    static final int[] NO_SETS = {-1, 8, -8, 256, 65536, Integer.MIN_VALUE, Integer.MAX_VALUE};

    /** Just outside of -50 to 50 and of NOTHING, and what would be a member if it were cut to fewer bits. */
    static final int[] NO_MEMBERS = {-51, 51, 99, 101, -100, 256, 65536, -206, Integer.MIN_VALUE, Integer.MAX_VALUE};

    /** A call with one parameter that is tried. */
    interface Call {
        Object answer(SetCouncil council, int parameter);
    }

    /** A call with two sets. */
    interface PairCall {
        Object answer(SetCouncil council, int set, int other);
    }

    private Edges() {
    }

    /** Runs the tests of a class, each a method of its own whose name begins with "promise", and its number. */
    static void run(Class<?> tests) {
        List<Method> found = testsOf(tests);
        for (Method test : found) {
            Checks.begin(test.getName());
            try {
                test.invoke(null);
            } catch (InvocationTargetException | IllegalAccessException broken) {
                Checks.due("what it came to", String.valueOf(broken.getCause()), "its end");
            }
        }
        Checks.begin(tests.getSimpleName());
        Checks.due("that there are tests", !found.isEmpty(), true);
        Checks.end();
    }

    static List<Method> testsOf(Class<?> tests) {
        List<Method> found = new ArrayList<>();
        for (Method method : tests.getDeclaredMethods()) {
            if (method.getName().matches("promise\\d+_\\w+")) {
                found.add(method);
            }
        }
        found.sort((a, b) -> a.getName().compareTo(b.getName()));
        return found;
    }

    /** The sets 0 and 7 are there, with these answers of an edged council; those outside are not, and are told first. */
    static void sets(Call call, Object ofFirst, Object ofLast) {
        Checks.due("set 0", Checks.outcome(() -> call.answer(Councils.edged(), 0)), ofFirst);
        Checks.due("set 7", Checks.outcome(() -> call.answer(Councils.edged(), 7)), ofLast);
        noSets(Councils::edged, call);
    }

    static void noSets(Checks.Maker maker, Call call) {
        for (int set : NO_SETS) {
            Checks.outOfBounds("set " + set, maker, council -> call.answer(council, set));
        }
    }

    /** Both of two parameters are sets from 0 to 7; tells nothing of the answers. */
    static void pairs(PairCall call) {
        for (int set : new int[] {0, 7}) {
            for (int other : new int[] {0, 7}) {
                Object got = Checks.outcome(() -> call.answer(Councils.edged(), set, other));
                Checks.due("sets " + set + " and " + other, String.valueOf(got).startsWith("throws."), false);
            }
            for (int no : NO_SETS) {
                Checks.outOfBounds("sets " + set + " and " + no, Councils::edged,
                    council -> call.answer(council, set, no));
                Checks.outOfBounds("sets " + no + " and " + set, Councils::edged,
                    council -> call.answer(council, no, set));
            }
        }
        Checks.outOfBounds("sets -1 and 8", Councils::edged, council -> call.answer(council, -1, 8));
    }

    static void noMembers(Call call) {
        arguments(call, NO_MEMBERS);
    }

    /** A parameter's range: its first and its last value throw nothing, what is outside is refused. */
    static void range(Call call, int first, int last) {
        for (int value : new int[] {first, last}) {
            Object got = Checks.outcome(() -> call.answer(Councils.edged(), value));
            Checks.due(value + " refused", String.valueOf(got).startsWith("throws."), false);
        }
        arguments(call, first - 1, last + 1, Integer.MIN_VALUE, Integer.MAX_VALUE, first - 256, last + 256,
            first + 65536);
    }

    /** None of these values of a parameter is in its range. */
    static void arguments(Call call, int... values) {
        for (int value : values) {
            Checks.illegalArgument("value " + value, Councils::edged, council -> call.answer(council, value));
        }
    }
}
