import java.lang.reflect.Method;
import java.util.List;
import java.util.TreeSet;

/** Each promise has boundary cases among the tests named after it, and none is named after a promise that is not. */
public final class EdgesOfAllTest {
    private static final int PROMISES = 49;

    private static final List<Class<?>> TESTS = List.of(EdgesOfMembersTest.class, EdgesOfPairsTest.class,
        EdgesOfVotesTest.class, EdgesOfFamilyTest.class, EdgesOfTextTest.class, EdgesOfProgramsTest.class,
        EdgesOfRefusalsTest.class);

    public static void main(String[] args) {
        TreeSet<Integer> want = new TreeSet<>();
        for (int promise = 1; promise <= PROMISES; promise++) {
            want.add(promise);
        }
        TreeSet<Integer> found = new TreeSet<>();
        for (Class<?> tests : TESTS) {
            for (Method test : Edges.testsOf(tests)) {
                String name = test.getName();
                found.add(Integer.valueOf(name.substring("promise".length(), name.indexOf('_'))));
            }
        }
        Checks.due("promises with tests of their boundary cases", found, want);
        Checks.end();
    }
}
