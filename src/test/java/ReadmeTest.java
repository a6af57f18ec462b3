import java.io.IOException;
import java.lang.reflect.InvocationTargetException;
import java.lang.reflect.Method;
import java.nio.charset.StandardCharsets;
import java.nio.file.Files;
import java.nio.file.Path;
import java.util.TreeSet;
import java.util.regex.Matcher;
import java.util.regex.Pattern;

/** README.md's lines of calls answer what stands behind them, and its table of calls names each call once. */
public final class ReadmeTest {
    private static final Pattern CALL =
        Pattern.compile("council\\.(\\w+)\\((.*)\\); +// (throws \\w+|-?\\w+)\\b.*");

    public static void main(String[] args) throws IOException {
        String page = Files.readString(Path.of("README.md"), StandardCharsets.UTF_8);
        theLines(between(page, "```java\n", "```"));
        theTable(between(page, "| calls | what for |\n| --- | --- |\n", "\n\n"));
        Checks.end();
    }

    private static String between(String page, String begin, String end) {
        int from = page.indexOf(begin);
        Checks.due("README.md has " + begin, from >= 0, true);
        return from < 0 ? "" : page.substring(from + begin.length(), page.indexOf(end, from + begin.length()));
    }

    private static void theLines(String block) {
        SetCouncil council = new SetCouncil();
        int tried = 0;
        for (String line : block.split("\n")) {
            if (line.startsWith("council.")) {
                Matcher call = CALL.matcher(line);
                Checks.due("a call and its answer: " + line, call.matches(), true);
                if (call.matches()) {
                    Checks.due(line, answer(council, call.group(1), call.group(2)), call.group(3));
                    tried++;
                }
            }
        }
        Checks.due("there are lines", tried > 0, true);
    }

    private static String answer(SetCouncil council, String name, String arguments) {
        String[] words = arguments.isEmpty() ? new String[0] : arguments.split(", ");
        for (Method method : SetCouncil.class.getMethods()) {
            if (method.getName().equals(name) && method.getParameterCount() == words.length) {
                return answer(council, method, words);
            }
        }
        return "no such call";
    }

    private static String answer(SetCouncil council, Method method, String[] words) {
        Object[] values = new Object[words.length];
        for (int i = 0; i < words.length; i++) {
            values[i] = method.getParameterTypes()[i] == long.class ? (Object) number(words[i])
                : (Object) (int) number(words[i]);
        }
        try {
            return String.valueOf(method.invoke(council, values));
        } catch (InvocationTargetException thrown) {
            return "throws " + thrown.getCause().getClass().getSimpleName();
        } catch (IllegalAccessException never) {
            return never.toString();
        }
    }

    private static long number(String word) {
        return word.equals("SetCouncil.UNION") ? SetCouncil.UNION : Long.decode(word.replace("L", ""));
    }

    private static void theTable(String rows) {
        TreeSet<String> calls = new TreeSet<>();
        for (Method method : SetCouncil.class.getDeclaredMethods()) {
            if (java.lang.reflect.Modifier.isPublic(method.getModifiers())) {
                calls.add(method.getName());
            }
        }
        TreeSet<String> named = new TreeSet<>();
        Matcher name = Pattern.compile("`(\\w+)`").matcher(rows);
        while (name.find()) {
            Checks.due(name.group(1) + " for the first time", named.add(name.group(1)), true);
        }
        Checks.due("the calls of the table", named, calls);
    }
}
