import java.lang.reflect.Constructor;
import java.lang.reflect.Field;
import java.lang.reflect.Method;
import java.lang.reflect.Modifier;
import java.util.ArrayList;
import java.util.Arrays;
import java.util.List;
import java.util.TreeSet;

/** The public face is the document's, and nothing more of the class can be seen from outside. */
public final class FaceTest {
    private static final String BOUNDS = " IndexOutOfBoundsException";
    private static final String ARGUMENT = " IllegalArgumentException";
    private static final String STATE = " IllegalStateException";
    private static final String ELEMENT = " NoSuchElementException";

    private static final List<String> METHODS = List.of(
        "boolean add(int,int)" + BOUNDS + ARGUMENT,
        "boolean remove(int,int)" + BOUNDS + ARGUMENT,
        "boolean has(int,int)" + BOUNDS + ARGUMENT,
        "int size(int)" + BOUNDS,
        "int sum(int)" + BOUNDS,
        "int clear(int)" + BOUNDS,
        "int fill(int,int,int,int)" + BOUNDS + ARGUMENT,
        "int memberAt(int,int)" + BOUNDS + ELEMENT,
        "int least(int)" + BOUNDS + ELEMENT,
        "int greatest(int)" + BOUNDS + ELEMENT,
        "boolean unite(int,int)" + BOUNDS,
        "boolean meet(int,int)" + BOUNDS,
        "boolean without(int,int)" + BOUNDS,
        "int copy(int,int)" + BOUNDS,
        "int sieve(int,int,int)" + BOUNDS + ARGUMENT,
        "boolean isWithin(int,int)" + BOUNDS,
        "boolean isApart(int,int)" + BOUNDS,
        "boolean isSame(int,int)" + BOUNDS,
        "int vote(int)" + ARGUMENT,
        "int elect(int,int)" + BOUNDS + ARGUMENT,
        "boolean keep(int)" + BOUNDS + STATE,
        "boolean drop(int)" + BOUNDS,
        "boolean isKept(int)" + BOUNDS,
        "int kept()",
        "int keptSum()",
        "int dropAll()",
        "int placeOf(int)" + BOUNDS,
        "int take(int,int)" + BOUNDS + ELEMENT,
        "int spread(int)" + ARGUMENT,
        "boolean isClosed(int)" + ARGUMENT,
        "boolean isChain()",
        "int primes()",
        "int primesWithin(int)" + BOUNDS,
        "int type(long)" + STATE,
        "int clearText()",
        "int textLength()",
        "int example(int)" + ARGUMENT,
        "int errorKind()",
        "int errorPlace()",
        "int run()" + STATE,
        "boolean viewHas(int,int)" + BOUNDS + ARGUMENT,
        "boolean viewRefuses(int,int,int)" + BOUNDS + ARGUMENT,
        "int walkRefuses(int,int)" + BOUNDS + ARGUMENT,
        "boolean nullRefuses(int,int)" + BOUNDS + ARGUMENT,
        "int lawErrors(int,int,int)" + BOUNDS,
        "int familyErrors()",
        "double meanSize()",
        "float nothingShare()");

    public static void main(String[] args) {
        theMethods();
        theConstants();
        theRest();
        aNewObject();
        Checks.end();
    }

    private static void theMethods() {
        List<String> seen = new ArrayList<>();
        TreeSet<String> hidden = new TreeSet<>();
        for (Method method : SetCouncil.class.getDeclaredMethods()) {
            if (Modifier.isPublic(method.getModifiers())) {
                seen.add(described(method));
                Checks.due("static " + method.getName(), Modifier.isStatic(method.getModifiers()), false);
            } else {
                hidden.add(method.getName());
                Checks.due("private " + method.getName(), Modifier.isPrivate(method.getModifiers()), true);
            }
        }
        Checks.due("the public methods", new TreeSet<>(seen), new TreeSet<>(METHODS));
        Checks.due("the number of public methods", seen.size(), METHODS.size());
        for (String method : METHODS) {
            String name = method.substring(method.indexOf(' ') + 1, method.indexOf('('));
            Checks.due("a private method named " + name, hidden.contains(name), false);
        }
    }

    private static String described(Method method) {
        StringBuilder text = new StringBuilder(method.getReturnType().getSimpleName());
        text.append(' ').append(method.getName()).append('(');
        String comma = "";
        for (Class<?> parameter : method.getParameterTypes()) {
            text.append(comma).append(parameter.getSimpleName());
            comma = ",";
        }
        text.append(')');
        for (Class<?> thrown : method.getExceptionTypes()) {
            text.append(' ').append(thrown.getSimpleName());
        }
        return text.toString();
    }

    private static void theConstants() {
        TreeSet<String> seen = new TreeSet<>();
        for (Field field : SetCouncil.class.getDeclaredFields()) {
            int modifiers = field.getModifiers();
            if (Modifier.isPublic(modifiers)) {
                seen.add(field.getType() + " " + field.getName());
                Checks.due("static final " + field, Modifier.isStatic(modifiers) && Modifier.isFinal(modifiers), true);
            } else {
                Checks.due("private " + field, Modifier.isPrivate(modifiers), true);
            }
        }
        Checks.due("the constants", seen, new TreeSet<>(List.of("int NONE", "int NOTHING", "int UNION", "int MEET",
            "int WITHOUT", "int NO_ELEMENT", "int NO_STATE")));
        Checks.due("NONE", SetCouncil.NONE, -1);
        Checks.due("NOTHING", SetCouncil.NOTHING, 100);
        Checks.due("UNION", SetCouncil.UNION, 0);
        Checks.due("MEET", SetCouncil.MEET, 1);
        Checks.due("WITHOUT", SetCouncil.WITHOUT, 2);
        Checks.due("NO_ELEMENT", SetCouncil.NO_ELEMENT, 1);
        Checks.due("NO_STATE", SetCouncil.NO_STATE, 2);
    }

    private static void theRest() {
        Checks.due("the class is final", Modifier.isFinal(SetCouncil.class.getModifiers()), true);
        Checks.due("the class is public", Modifier.isPublic(SetCouncil.class.getModifiers()), true);
        Constructor<?>[] constructors = SetCouncil.class.getDeclaredConstructors();
        Checks.due("constructors", constructors.length, 1);
        Checks.due("the constructor", Arrays.toString(constructors), "[public SetCouncil()]");
        for (Class<?> inside : SetCouncil.class.getDeclaredClasses()) {
            Checks.due("private static " + inside, Modifier.isPrivate(inside.getModifiers())
                && Modifier.isStatic(inside.getModifiers()), true);
        }
    }

    /** Promise 1. */
    private static void aNewObject() {
        SetCouncil council = new SetCouncil();
        for (int set = 0; set < 8; set++) {
            Checks.due("size(" + set + ") of a new council", council.size(set), 0);
            Checks.due("sum(" + set + ") of a new council", council.sum(set), 0);
        }
        Checks.due("size(8)", Checks.outcome(() -> council.size(8)), "throws.IndexOutOfBoundsException");
        Checks.due("kept() of a new council", council.kept(), 0);
        Checks.due("textLength() of a new council", council.textLength(), 0);
        Checks.due("errorKind() of a new council", council.errorKind(), 0);
        Checks.due("errorPlace() of a new council", council.errorPlace(), -1);
        Checks.due("run() of a new council", council.run(), 0);
        SetCouncil other = new SetCouncil();
        council.add(0, 3);
        council.keep(0);
        council.type(65);
        Checks.due("another council's set", other.size(0), 0);
        Checks.due("another council's family", other.kept(), 0);
        Checks.due("another council's text", other.textLength(), 0);
    }
}
