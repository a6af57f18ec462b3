import java.io.IOException;
import java.nio.charset.StandardCharsets;
import java.nio.file.Files;
import java.nio.file.Path;
import java.util.List;
import java.util.regex.Matcher;
import java.util.regex.Pattern;

/** The rules of LANGUAGE.md that can be seen in the text of the class; it is read from the project's folder. */
public final class LanguageTest {
    private static final int LONGEST_METHOD = 60;
    private static final int MOST_CLASSES = 12;
    private static final int MOST_PARAMETERS = 7;

    private static final String[] RULED_OUT = {
        "->", "::", "\\bstatic\\s*\\{", "\\bfinally\\b", "\\bassert\\b", "\\bsynchronized\\b", "\\byield\\b", "\\bvar\\b",
        "\\bpackage\\b", "\\bSystem\\.(?!arraycopy)", "\\bRandom\\b", "\\bThread\\b", "Exact\\b", "\\bObject\\b",
        "\\bequals\\(", "\\bhashCode\\b", "\\btoString\\b", "\\bgetMessage\\b", "\\bprotected\\b", "\\bvolatile\\b",
        "\\bnative\\b", "\"\\s*\\+", "\\+\\s*\"", "@SuppressWarnings", "\\bMath\\.(?!floorMod|floorDiv|abs|min|max)"};

    private static final List<String> MAY_THROW = List.of("IllegalStateException", "IllegalArgumentException",
        "IndexOutOfBoundsException", "ArithmeticException", "UnsupportedOperationException", "NoSuchElementException",
        "RuntimeException");

    /** Those that no throw of the machine comes to. */
    private static final List<String> MAY_CATCH = List.of("IllegalStateException", "IllegalArgumentException",
        "UnsupportedOperationException", "NoSuchElementException");

    public static void main(String[] args) throws IOException {
        String text = Files.readString(Path.of("src/main/java/SetCouncil.java"), StandardCharsets.UTF_8);
        String code = withoutComments(text);
        for (String pattern : RULED_OUT) {
            Checks.due("found " + pattern, Pattern.compile(pattern).matcher(code).find(), false);
        }
        Checks.due("signs from 1 to 126 alone", text.chars().allMatch(sign -> sign == 10 || sign >= 32 && sign < 127), true);
        imports(code);
        exceptions(code);
        classes(code);
        methods(code);
        Checks.end();
    }

    private static String withoutComments(String text) {
        return text.replaceAll("(?s)/\\*.*?\\*/", "").replaceAll("(?m)//.*$", "");
    }

    private static void imports(String code) {
        Matcher found = Pattern.compile("(?m)^import (.*);$").matcher(code);
        while (found.find()) {
            Checks.due("import", found.group(1), "java.util.NoSuchElementException");
        }
    }

    private static void exceptions(String code) {
        Matcher thrown = Pattern.compile("\\bthrow\\b\\s*(.*)").matcher(code);
        int throwing = 0;
        while (thrown.find()) {
            throwing++;
            Matcher form = Pattern.compile("new (\\w+)\\((\"[^\"]*\")?\\);").matcher(thrown.group(1));
            Checks.due("throw " + thrown.group(1), form.matches() && MAY_THROW.contains(form.group(1)), true);
        }
        Checks.due("there are throws", throwing > 0, true);
        Matcher caught = Pattern.compile("\\bcatch\\b\\s*\\((.*?) \\w+\\)").matcher(code);
        while (caught.find()) {
            Checks.due("catch " + caught.group(1), MAY_CATCH.contains(caught.group(1)), true);
        }
    }

    private static void classes(String code) {
        Matcher found = Pattern.compile("(?m)^ *(.*)\\bclass (\\w+)").matcher(code);
        int classes = 0;
        while (found.find()) {
            classes++;
            Checks.due("class " + found.group(2), found.group(1),
                found.group(2).equals("SetCouncil") ? "public final " : "private static final ");
        }
        Checks.due("not more than some twelve classes", classes > 0 && classes <= MOST_CLASSES, true);
    }

    /** A method begins with a line that ends with "{" and has brackets, at the depth of members. */
    private static void methods(String code) {
        String[] lines = code.split("\n");
        Pattern head = Pattern.compile("^( {4}| {8})(?=\\S)[\\w\\[\\]. ]+\\(([^()]*)\\)[\\w, ]* \\{$");
        int methods = 0;
        for (int i = 0; i < lines.length; i++) {
            Matcher found = head.matcher(lines[i]);
            if (found.matches() && !lines[i].trim().matches("(if|for|while|switch|else|do|try)\\b.*")) {
                methods++;
                int end = i;
                while (end < lines.length - 1 && !lines[end].equals(found.group(1) + "}")) {
                    end++;
                }
                Checks.due("a short method: " + lines[i].trim(), end - i < LONGEST_METHOD, true);
                String parameters = found.group(2);
                Checks.due("few parameters: " + lines[i].trim(),
                    parameters.isEmpty() || parameters.split(",").length <= MOST_PARAMETERS, true);
            }
        }
        Checks.due("methods are found", methods > 100, true);
    }
}
