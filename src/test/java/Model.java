import java.math.BigInteger;
import java.util.ArrayList;
import java.util.Collections;
import java.util.HashSet;
import java.util.Iterator;
import java.util.List;
import java.util.NoSuchElementException;
import java.util.Set;
import java.util.TreeSet;

/**
 * The document once more, by the Java library's own sets: slow, plain, and in nothing like the program, so that the
 * two can be set against each other. Its calls have the names of the program's.
 */
public final class Model {
    private static final int OF_FAMILY = 7;

    private final List<Set<Integer>> sets = new ArrayList<>();
    private final List<Set<Integer>> views = new ArrayList<>();
    private Set<Set<Integer>> family = new HashSet<>();
    private String text = "";

    public Model() {
        for (int i = 0; i < 8; i++) {
            Set<Integer> set = new HashSet<>();
            sets.add(set);
            views.add(Collections.unmodifiableSet(set));
        }
    }

    private Set<Integer> set(int number) {
        if (number < 0 || number > 7) {
            throw new IndexOutOfBoundsException();
        }
        return sets.get(number);
    }

    private static void mustBe(boolean right) {
        if (!right) {
            throw new IllegalArgumentException();
        }
    }

    private static int member(int member) {
        mustBe(member == 100 || Math.abs((long) member) <= 50);
        return member;
    }

    private static int rank(int member) {
        return member == 100 ? -1000 : member;
    }

    private static TreeSet<Integer> ordered(Set<Integer> members) {
        TreeSet<Integer> result = new TreeSet<>((a, b) -> Integer.compare(rank(a), rank(b)));
        result.addAll(members);
        return result;
    }

    private static TreeSet<Integer> numbers(Set<Integer> members) {
        TreeSet<Integer> result = new TreeSet<>(members);
        result.remove(100);
        return result;
    }

    private static int sumOf(Set<Integer> members) {
        return numbers(members).stream().mapToInt(Integer::intValue).sum();
    }

    private boolean becomes(Set<Integer> one, Set<Integer> other) {
        Set<Integer> now = new HashSet<>(other);
        boolean changed = !one.equals(now);
        one.clear();
        one.addAll(now);
        return changed;
    }

    private static Set<Integer> combined(int how, Set<Integer> first, Set<Integer> second) {
        Set<Integer> result = new HashSet<>(first);
        if (how == 0) {
            result.addAll(second);
        } else if (how == 1) {
            result.retainAll(second);
        } else {
            result.removeAll(second);
        }
        return result;
    }

    public boolean add(int set, int member) {
        return set(set).add(member(member));
    }

    public boolean remove(int set, int member) {
        return set(set).remove(member(member));
    }

    public boolean has(int set, int member) {
        return set(set).contains(member(member));
    }

    public int size(int set) {
        return set(set).size();
    }

    public int sum(int set) {
        return sumOf(set(set));
    }

    public int clear(int set) {
        int before = set(set).size();
        set(set).clear();
        return before;
    }

    public int fill(int set, int first, int step, int many) {
        Set<Integer> one = set(set);
        mustBe(first >= -50 && first <= 50 && step >= -100 && step <= 100 && many >= 0 && many <= 101);
        int before = one.size();
        for (int i = 0, number = first; i < many; i++, number += step) {
            if (number >= -50 && number <= 50) {
                one.add(number);
            }
        }
        return one.size() - before;
    }

    public int memberAt(int set, int index) {
        List<Integer> members = new ArrayList<>(ordered(set(set)));
        if (index < 0 || index >= members.size()) {
            throw new NoSuchElementException();
        }
        return members.get(index);
    }

    public int least(int set) {
        return numbers(set(set)).first();
    }

    public int greatest(int set) {
        return numbers(set(set)).last();
    }

    public boolean unite(int set, int other) {
        return becomes(set(set), combined(0, set(set), set(other)));
    }

    public boolean meet(int set, int other) {
        return becomes(set(set), combined(1, set(set), set(other)));
    }

    public boolean without(int set, int other) {
        return becomes(set(set), combined(2, set(set), set(other)));
    }

    public int copy(int set, int from) {
        becomes(set(set), set(from));
        return set(set).size();
    }

    public int sieve(int set, int modulus, int rest) {
        Set<Integer> one = set(set);
        mustBe(modulus >= 1 && modulus <= 100 && rest >= 0 && rest <= 99);
        int before = one.size();
        one.removeIf(member -> member != 100 && ((member % modulus) + modulus) % modulus == rest);
        return before - one.size();
    }

    public boolean isWithin(int set, int other) {
        Set<Integer> one = set(set);
        return set(other).containsAll(one);
    }

    public boolean isApart(int set, int other) {
        Set<Integer> one = set(set);
        return Collections.disjoint(one, set(other));
    }

    public boolean isSame(int set, int other) {
        Set<Integer> one = set(set);
        return one.equals(set(other));
    }

    public int vote(int member) {
        member(member);
        return (int) sets.stream().filter(set -> set.contains(member)).count();
    }

    public int elect(int set, int quorum) {
        Set<Integer> one = set(set);
        mustBe(quorum >= 1 && quorum <= 8);
        Set<Integer> elected = new HashSet<>();
        for (int member = -50; member <= 50; member++) {
            if (vote(member) >= quorum) {
                elected.add(member);
            }
        }
        if (vote(100) >= quorum) {
            elected.add(100);
        }
        becomes(one, elected);
        return one.size();
    }

    public boolean keep(int set) {
        Set<Integer> one = set(set);
        if (family.contains(one)) {
            return false;
        }
        if (family.size() == OF_FAMILY) {
            throw new IllegalStateException();
        }
        return family.add(Set.copyOf(one));
    }

    public boolean drop(int set) {
        Set<Integer> one = set(set);
        return family.remove(one);
    }

    public boolean isKept(int set) {
        return family.contains(set(set));
    }

    public int kept() {
        return family.size();
    }

    public int keptSum() {
        return family.stream().mapToInt(Model::sumOf).sum();
    }

    public int dropAll() {
        int before = family.size();
        family.clear();
        return before;
    }

    private static int compared(Set<Integer> one, Set<Integer> other) {
        Set<Integer> differing = combined(0, combined(2, one, other), combined(2, other, one));
        if (differing.isEmpty()) {
            return 0;
        }
        return one.contains(ordered(differing).first()) ? -1 : 1;
    }

    private List<Set<Integer>> places() {
        List<Set<Integer>> places = new ArrayList<>(family);
        places.sort(Model::compared);
        return places;
    }

    public int placeOf(int set) {
        return places().indexOf(set(set));
    }

    public int take(int set, int place) {
        Set<Integer> one = set(set);
        if (place < 0 || place >= family.size()) {
            throw new NoSuchElementException();
        }
        becomes(one, places().get(place));
        return one.size();
    }

    private Set<Set<Integer>> together(int how) {
        mustBe(how >= 0 && how <= 2);
        Set<Set<Integer>> result = new HashSet<>();
        for (Set<Integer> one : family) {
            for (Set<Integer> other : family) {
                if (!one.equals(other)) {
                    result.add(combined(how, one, other));
                }
            }
        }
        return result;
    }

    public int spread(int how) {
        Set<Set<Integer>> all = together(how);
        all.addAll(family);
        if (all.size() > OF_FAMILY) {
            return -1;
        }
        int came = all.size() - family.size();
        family = all;
        return came;
    }

    public boolean isClosed(int how) {
        return family.containsAll(together(how));
    }

    public boolean isChain() {
        List<Set<Integer>> bySize = new ArrayList<>(family);
        bySize.sort((a, b) -> Integer.compare(a.size(), b.size()));
        for (int i = 1; i < bySize.size(); i++) {
            if (!bySize.get(i).containsAll(bySize.get(i - 1))) {
                return false;
            }
        }
        return true;
    }

    private List<Set<Integer>> primeSets() {
        List<Set<Integer>> result = new ArrayList<>();
        for (Set<Integer> one : family) {
            Set<Integer> union = new HashSet<>();
            for (Set<Integer> other : family) {
                if (other.size() < one.size() && one.containsAll(other)) {
                    union.addAll(other);
                }
            }
            if (!union.equals(one)) {
                result.add(one);
            }
        }
        return result;
    }

    public int primes() {
        return primeSets().size();
    }

    public int primesWithin(int set) {
        Set<Integer> one = set(set);
        return (int) primeSets().stream().filter(one::containsAll).count();
    }

    public int type(long bytes) {
        StringBuilder more = new StringBuilder(text);
        for (byte each : java.nio.ByteBuffer.allocate(8).putLong(bytes).array()) {
            if (each != 0) {
                more.append((char) Byte.toUnsignedInt(each));
            }
        }
        if (more.length() > 200) {
            throw new IllegalStateException();
        }
        text = more.toString();
        return text.length();
    }

    public int clearText() {
        int before = text.length();
        text = "";
        return before;
    }

    public int textLength() {
        return text.length();
    }

    public int example(int which) {
        mustBe(which >= 0 && which <= 2);
        text = which == 0 ? "a = { -9 .. 9 }; b = { 0 .. 30, # }; c = { -30 .. 3 }; d = a & b | c; "
            + "e = (a | c) & (b | c); f = a - (b | c); g = (a - b) & (a - c); h = a ^ b ^ c;"
            : which == 1
            ? "a={1..10}-{5};b={#,-50..-40,7};c=a^b;d=c^a;e=(a|b)-(a&b);f={};g=f|{#};h=(((b&a)|d)-g);"
            : "a={0,2,4,6,8};b={0,3,6,9};c=a&b;d=a|b;e={0..9};f=e-a;g=e-b;h=f&g;";
        return text.length();
    }

    public int errorKind() {
        return new Program().error()[0];
    }

    public int errorPlace() {
        return new Program().error()[1];
    }

    public int run() {
        Program program = new Program();
        if (program.error()[0] != 0) {
            throw new IllegalStateException();
        }
        for (int i = 0; i < 8; i++) {
            becomes(sets.get(i), program.named.get(i));
        }
        return program.statements;
    }

    public boolean viewHas(int set, int member) {
        set(set);
        return views.get(set).contains(member(member));
    }

    public boolean viewRefuses(int set, int what, int member) {
        set(set);
        mustBe(what >= 0 && what <= 6);
        member(member);
        Set<Integer> view = views.get(set);
        if (what == 6 && view.isEmpty()) {
            return false;
        }
        try {
            switch (what) {
                case 0: view.add(member); break;
                case 1: view.remove(member); break;
                case 2: view.addAll(sets.get(0)); break;
                case 3: view.retainAll(sets.get(0)); break;
                case 4: view.removeAll(sets.get(0)); break;
                case 5: view.clear(); break;
                default:
                    Iterator<Integer> walk = view.iterator();
                    walk.next();
                    walk.remove();
                    break;
            }
            return false;
        } catch (UnsupportedOperationException refused) {
            return true;
        }
    }

    public int walkRefuses(int set, int what) {
        Set<Integer> members = new HashSet<>(set(set));
        mustBe(what >= 0 && what <= 2);
        Iterator<Integer> walk = members.iterator();
        try {
            if (what == 0) {
                while (walk.hasNext()) {
                    walk.next();
                }
                walk.next();
            } else if (what == 1) {
                walk.remove();
            } else {
                walk.next();
                walk.remove();
                walk.remove();
            }
            return 0;
        } catch (NoSuchElementException none) {
            return 1;
        } catch (IllegalStateException none) {
            return 2;
        }
    }

    public boolean nullRefuses(int set, int what) {
        Set<Integer> one = set(set);
        mustBe(what >= 0 && what <= 3);
        try {
            switch (what) {
                case 0: one.addAll(null); break;
                case 1: one.retainAll(null); break;
                case 2: one.removeAll(null); break;
                default: one.containsAll(null); break;
            }
            return false;
        } catch (NullPointerException refused) {
            return true;
        }
    }

    public int lawErrors(int a, int b, int c) {
        set(a);
        set(b);
        set(c);
        return 0;
    }

    public int familyErrors() {
        return 0;
    }

    public double meanSize() {
        return sets.stream().mapToInt(Set::size).sum() / 8.0;
    }

    public float nothingShare() {
        return vote(100) / 8.0f;
    }

    /** Tells the place of a fault, and ends the reading. */
    private static final class Fault extends Exception {
        private static final long serialVersionUID = 1L;
        private final int kind;
        private final int place;

        Fault(int kind, int place) {
            this.kind = kind;
            this.place = place;
        }
    }

    /** The text read by a method for each rule of the grammar. */
    private final class Program {
        private final List<Set<Integer>> named = new ArrayList<>();
        private int at = 0;
        private int statements = 0;

        int[] error() {
            for (Set<Integer> set : sets) {
                named.add(new HashSet<>(set));
            }
            try {
                while (sign() != 0) {
                    statement();
                }
                return new int[] {0, -1};
            } catch (Fault fault) {
                return new int[] {fault.kind, fault.place};
            }
        }

        private int byteHere() {
            return at < text.length() ? text.charAt(at) : 0;
        }

        /** The next byte that is no blank, where the reading then stands; 0 behind the last one. */
        private int sign() {
            while (byteHere() == 32 || byteHere() == 10) {
                at++;
            }
            return byteHere();
        }

        private boolean meets(char sign) {
            if (sign() == sign) {
                at++;
                return true;
            }
            return false;
        }

        private void must(char sign) throws Fault {
            if (!meets(sign)) {
                throw new Fault(1, at);
            }
        }

        private boolean atName() {
            return "abcdefgh".indexOf(sign()) >= 0;
        }

        private void statement() throws Fault {
            if (!atName()) {
                throw new Fault(1, at);
            }
            int name = text.charAt(at++) - 'a';
            must('=');
            Set<Integer> value = sum(0);
            must(';');
            named.set(name, value);
            statements++;
        }

        private Set<Integer> sum(int open) throws Fault {
            Set<Integer> value = part(open);
            while (true) {
                if (meets('|')) {
                    value = combined(0, value, part(open));
                } else if (meets('-')) {
                    value = combined(2, value, part(open));
                } else if (meets('^')) {
                    Set<Integer> other = part(open);
                    value = combined(2, combined(0, value, other), combined(1, value, other));
                } else {
                    return value;
                }
            }
        }

        private Set<Integer> part(int open) throws Fault {
            Set<Integer> value = factor(open);
            while (meets('&')) {
                value = combined(1, value, factor(open));
            }
            return value;
        }

        private Set<Integer> factor(int open) throws Fault {
            if (atName()) {
                return new HashSet<>(named.get(text.charAt(at++) - 'a'));
            }
            if (meets('{')) {
                return braces();
            }
            if (sign() == '(' && open == 8) {
                throw new Fault(2, at);
            }
            must('(');
            Set<Integer> value = sum(open + 1);
            must(')');
            return value;
        }

        private Set<Integer> braces() throws Fault {
            Set<Integer> value = new HashSet<>();
            if (meets('}')) {
                return value;
            }
            do {
                item(value);
            } while (meets(','));
            must('}');
            return value;
        }

        private void item(Set<Integer> value) throws Fault {
            if (meets('#')) {
                value.add(100);
                return;
            }
            int first = number(-50);
            int last = first;
            if (meets('.')) {
                if (byteHere() != '.') {
                    throw new Fault(1, at);
                }
                at++;
                last = number(first);
            }
            for (int number = first; number <= last; number++) {
                value.add(number);
            }
        }

        private int number(int least) throws Fault {
            sign();
            int begin = at;
            if (byteHere() == '-') {
                at++;
            }
            int digits = at;
            while (byteHere() >= '0' && byteHere() <= '9') {
                at++;
            }
            if (at == digits) {
                throw new Fault(1, at);
            }
            BigInteger number = new BigInteger(text.substring(begin, at));
            if (number.compareTo(BigInteger.valueOf(least)) < 0 || number.compareTo(BigInteger.valueOf(50)) > 0) {
                throw new Fault(2, begin);
            }
            return number.intValue();
        }
    }
}
