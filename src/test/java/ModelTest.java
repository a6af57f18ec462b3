import java.lang.reflect.InvocationTargetException;
import java.lang.reflect.Method;
import java.util.ArrayList;
import java.util.HashMap;
import java.util.List;
import java.util.Map;

/** Long runs of calls, and programs with and without faults, on the program and on the model: all answers the same. */
public final class ModelTest {
    private static final int MOST_CALLS = 512;

    /** Each call with the kinds of its parameters; what is listed twice is called more often. */
    private static final String[] CALLS = {
        "add set member", "add set member", "remove set member", "has set member", "size set", "sum set", "clear set",
        "fill set first step many", "fill set first step many", "memberAt set index", "least set", "greatest set",
        "unite set set", "meet set set", "without set set", "copy set set", "sieve set modulus rest",
        "isWithin set set", "isApart set set", "isSame set set", "vote member", "elect set quorum", "keep set",
        "keep set", "keep set", "drop set", "isKept set", "kept", "keptSum", "dropAll", "placeOf set",
        "take set place", "spread how", "spread how", "isClosed how", "isChain", "primes", "primesWithin set",
        "type bytes", "clearText", "textLength", "example which", "errorKind", "errorPlace", "run", "viewHas set member",
        "viewRefuses set seven member", "walkRefuses set three", "nullRefuses set four", "lawErrors set set set",
        "familyErrors", "meanSize", "nothingShare"};

    private static final Map<String, Method> OF_COUNCIL = methodsOf(SetCouncil.class);
    private static final Map<String, Method> OF_MODEL = methodsOf(Model.class);

    private static long state = 1;

    private final SetCouncil council = new SetCouncil();
    private final Model model = new Model();
    private final List<String> history = new ArrayList<>();

    public static void main(String[] args) {
        Checks.due("calls that are tried", new java.util.TreeSet<>(OF_MODEL.keySet()),
            new java.util.TreeSet<>(OF_COUNCIL.keySet()));
        for (int seed = 1; seed <= 600; seed++) {
            state = seed * 7919L;
            new ModelTest().manyCalls(seed % 3);
        }
        for (int seed = 1; seed <= 20000; seed++) {
            state = seed * 104729L;
            new ModelTest().oneProgram();
        }
        for (int which = 0; which < 3; which++) {
            faultsOfExample(which);
        }
        Checks.end();
    }

    private static Map<String, Method> methodsOf(Class<?> one) {
        Map<String, Method> methods = new HashMap<>();
        for (Method method : one.getDeclaredMethods()) {
            if (java.lang.reflect.Modifier.isPublic(method.getModifiers())) {
                methods.put(method.getName(), method);
            }
        }
        return methods;
    }

    /** A row of numbers that is the same in each run of the test. */
    private static int below(int bound) {
        state = state * 6364136223846793005L + 1442695040888963407L;
        return (int) ((state >>> 33) % bound);
    }

    private static int from(int first, int last) {
        return first + below(last - first + 1);
    }

    private static int mostly(int first, int last) {
        int[] wrong = {first - 1, last + 1, Integer.MIN_VALUE, Integer.MAX_VALUE, first, last};
        return below(25) == 0 ? wrong[below(wrong.length)] : from(first, last);
    }

    /** Of few numbers, so that sets are often the same, or one within another one. */
    private static int someMember() {
        return below(5) == 0 ? 100 : below(2) == 0 ? from(1, 4) : mostly(-50, 50);
    }

    private static Object argument(String kind) {
        switch (kind) {
            case "set": return mostly(0, 7);
            case "member": return someMember();
            case "first": return mostly(-50, 50);
            case "step": return below(2) == 0 ? mostly(-3, 3) : mostly(-100, 100);
            case "many": return below(2) == 0 ? from(0, 6) : mostly(0, 101);
            case "index": return mostly(0, 5);
            case "modulus": return below(2) == 0 ? from(1, 5) : mostly(1, 100);
            case "rest": return below(2) == 0 ? from(0, 4) : mostly(0, 99);
            case "quorum": return mostly(1, 8);
            case "place": return mostly(0, 6);
            case "how": case "which": case "three": return mostly(0, 2);
            case "four": return mostly(0, 3);
            case "seven": return mostly(0, 6);
            case "bytes": return (long) below(1 << 30) << 40 ^ (long) below(1 << 30) << 16 ^ below(1 << 30);
            default: throw new IllegalStateException(kind);
        }
    }

    private static Object answer(Object object, Method method, Object[] arguments) {
        try {
            return method.invoke(object, arguments);
        } catch (InvocationTargetException thrown) {
            return "throws." + thrown.getCause().getClass().getSimpleName();
        } catch (IllegalAccessException never) {
            throw new IllegalStateException(never);
        }
    }

    private void call(String name, Object... arguments) {
        String what = name + java.util.Arrays.toString(arguments);
        Object got = answer(council, OF_COUNCIL.get(name), arguments);
        Object want = answer(model, OF_MODEL.get(name), arguments);
        if (!want.equals(got)) {
            System.out.println("ahead of what follows: " + history);
        }
        Checks.due(what, got, want);
        history.add(what);
    }

    private boolean hasCalls(int more) {
        return history.size() + more <= MOST_CALLS;
    }

    /** Small sets alone (0), with programs (1), or with all that there is (2). */
    private void manyCalls(int kind) {
        while (hasCalls(40)) {
            if (kind > 0 && below(8) == 0) {
                typeAndRun(program());
            } else {
                anyCall(kind < 2);
            }
        }
        for (int set = 0; set < 8; set++) {
            call("sum", set);
            call("size", set);
            call("placeOf", set);
        }
    }

    private void anyCall(boolean smallSets) {
        String[] words = CALLS[below(CALLS.length)].split(" ");
        if (smallSets && words[0].equals("fill")) {
            call("fill", from(0, 7), from(1, 4), 1, from(1, 3));
            return;
        }
        if (smallSets && words[0].equals("dropAll") && below(4) != 0) {
            return;
        }
        Object[] arguments = new Object[words.length - 1];
        for (int i = 0; i < arguments.length; i++) {
            arguments[i] = argument(words[i + 1]);
        }
        call(words[0], arguments);
    }

    private void oneProgram() {
        for (int set = 0; set < 8; set++) {
            call("fill", set, from(-10, 10), from(1, 3), from(0, 12));
        }
        call("add", below(8), 100);
        typeAndRun(below(3) == 0 ? program() : spoilt(program()));
        for (int set = 0; set < 8; set++) {
            call("size", set);
            call("sum", set);
            call("has", set, 100);
        }
    }

    private void typeAndRun(String program) {
        call("clearText");
        for (int begin = 0; begin < program.length(); begin += 8) {
            long number = 0;
            for (int i = begin; i < begin + 8 && i < program.length(); i++) {
                number = number << 8 | program.charAt(i);
            }
            call("type", number);
        }
        call("errorKind");
        call("errorPlace");
        call("run");
    }

    /** Each example with one byte more, one byte less, or another byte, at each place, and cut off there. */
    private static void faultsOfExample(int which) {
        String[] examples = {
            "a={-9..9};b={0..30,#};c=a&b|{-30..3};d=(a|c)&(b|c);",
            "a={1..10}-{5};b={#,-50..-40,7};c=a^b;h=(((b&a)|d)-g);",
            " a = ( ( { 0 .. 9 , # } - b ) & c ) ; \n"};
        String program = examples[which];
        String signs = "abhi019-#{}(),;=.|&^ \n\t\u00e9x";
        for (int place = 0; place <= program.length(); place++) {
            String front = program.substring(0, place);
            String back = program.substring(Math.min(place + 1, program.length()));
            new ModelTest().typeAndRun(front);
            new ModelTest().typeAndRun(front + back);
            for (int i = 0; i < signs.length(); i++) {
                new ModelTest().typeAndRun(front + signs.charAt(i) + program.substring(place));
                new ModelTest().typeAndRun(front + signs.charAt(i) + back);
            }
        }
    }

    private static String program() {
        StringBuilder program = new StringBuilder();
        int statements = from(1, 5);
        for (int i = 0; i < statements && program.length() < 150; i++) {
            StringBuilder one = new StringBuilder();
            statement(one);
            if (program.length() + one.length() <= 200) {
                program.append(one);
            }
        }
        return program.toString();
    }

    private static void put(StringBuilder program, String sign) {
        program.append(below(12) == 0 ? below(2) == 0 ? " " : "\n" : "").append(sign);
    }

    private static String name() {
        return String.valueOf((char) ('a' + below(8)));
    }

    private static void statement(StringBuilder program) {
        put(program, name());
        put(program, "=");
        if (below(20) == 0) {
            int deep = from(6, 9);
            program.append("(".repeat(deep)).append(name()).append(")".repeat(deep));
        } else {
            sum(program, 0);
        }
        put(program, ";");
    }

    private static void sum(StringBuilder program, int open) {
        part(program, open);
        while (below(5) < 2) {
            put(program, String.valueOf("|-^".charAt(below(3))));
            part(program, open);
        }
    }

    private static void part(StringBuilder program, int open) {
        factor(program, open);
        while (below(4) == 0) {
            put(program, "&");
            factor(program, open);
        }
    }

    private static void factor(StringBuilder program, int open) {
        int kind = below(4);
        if (kind == 0) {
            braces(program);
        } else if (kind == 1 && open < 9) {
            put(program, "(");
            sum(program, open + 1);
            put(program, ")");
        } else {
            put(program, name());
        }
    }

    private static void braces(StringBuilder program) {
        put(program, "{");
        int items = below(4);
        for (int i = 0; i < items; i++) {
            put(program, i == 0 ? "" : ",");
            item(program);
        }
        put(program, "}");
    }

    private static void item(StringBuilder program) {
        if (below(5) == 0) {
            put(program, "#");
            return;
        }
        int first = from(-52, 52);
        if (below(3) > 0) {
            first = from(-9, 9);
        }
        put(program, String.valueOf(first));
        if (below(3) == 0) {
            put(program, "..");
            put(program, String.valueOf(first + from(-1, 8)));
        }
    }

    /** The program with one fault, or two. */
    private static String spoilt(String program) {
        StringBuilder result = new StringBuilder(program);
        String signs = "abch019-#{}(),;=.|&^ \n\t\u0001\u00ffi";
        int faults = from(1, 2);
        for (int i = 0; i < faults && result.length() > 0; i++) {
            int place = below(result.length());
            switch (below(4)) {
                case 0: result.deleteCharAt(place); break;
                case 1: result.setCharAt(place, signs.charAt(below(signs.length()))); break;
                case 2: result.setLength(place); break;
                default:
                    if (result.length() < 200) {
                        result.insert(place, signs.charAt(below(signs.length())));
                    }
                    break;
            }
        }
        return result.toString();
    }
}
