import java.util.NoSuchElementException;

/** A council of eight sets of numbers, a family of sets, and a text that can be a program over the sets. */
public final class SetCouncil {
    public static final int NONE = -1;
    public static final int NOTHING = 100;
    public static final int UNION = 0, MEET = 1, WITHOUT = 2;
    public static final int NO_ELEMENT = 1, NO_STATE = 2;

    /** A fourth way to combine two sets, which programs alone have: the union without the meet. */
    private static final int EITHER = 3;

    private static final int SETS = 8;
    private static final int LEAST_NUMBER = -50;
    private static final int GREATEST_NUMBER = 50;
    private static final int MOST_STEP = 100;
    private static final int MOST_NUMBERS = 101;
    private static final int MOST_MODULUS = 100;

    /** Members are held by their index in the order of members: 0 is NOTHING, 1 is -50, 101 is 50. */
    private static final int INDEXES = 102;
    private static final int INDEX_OF_ZERO = 51;
    private static final int LONG_BITS = 64;

    private static final int MOST_KEPT = 7;
    private static final int MOST_BYTES = 200;
    private static final int MOST_OPEN = 8;

    private static final int ERROR_BYTE = 1;
    private static final int ERROR_VALUE = 2;

    private static final String EXAMPLE_0 = "a = { -9 .. 9 }; b = { 0 .. 30, # }; c = { -30 .. 3 }; d = a & b | c; e = (a | c) & (b | c); f = a - (b | c); g = (a - b) & (a - c); h = a ^ b ^ c;";
    private static final String EXAMPLE_1 = "a={1..10}-{5};b={#,-50..-40,7};c=a^b;d=c^a;e=(a|b)-(a&b);f={};g=f|{#};h=(((b&a)|d)-g);";
    private static final String EXAMPLE_2 = "a={0,2,4,6,8};b={0,3,6,9};c=a&b;d=a|b;e={0..9};f=e-a;g=e-b;h=f&g;";

    private final MemberSet[] sets;
    private final View[] views;
    private final Family family;
    private final Family draft;
    private final MemberSet spare;
    private final Text text;
    private final Reader reader;
    private final Laws laws;

    public SetCouncil() {
        sets = new MemberSet[SETS];
        views = new View[SETS];
        for (int i = 0; i < SETS; i++) {
            sets[i] = new MemberSet();
            views[i] = new View(sets[i]);
        }
        family = new Family();
        draft = new Family();
        spare = new MemberSet();
        text = new Text();
        reader = new Reader(text);
        laws = new Laws();
    }

    public boolean add(int set, int member) throws IndexOutOfBoundsException, IllegalArgumentException {
        MemberSet one = setAt(set);
        return one.put(indexOfMember(member));
    }

    public boolean remove(int set, int member) throws IndexOutOfBoundsException, IllegalArgumentException {
        MemberSet one = setAt(set);
        return one.takeOut(indexOfMember(member));
    }

    public boolean has(int set, int member) throws IndexOutOfBoundsException, IllegalArgumentException {
        MemberSet one = setAt(set);
        return one.holds(indexOfMember(member));
    }

    public int size(int set) throws IndexOutOfBoundsException {
        return setAt(set).count();
    }

    public int sum(int set) throws IndexOutOfBoundsException {
        return setAt(set).total();
    }

    public int clear(int set) throws IndexOutOfBoundsException {
        MemberSet one = setAt(set);
        int before = one.count();
        one.empty();
        return before;
    }

    public int fill(int set, int first, int step, int many) throws IndexOutOfBoundsException, IllegalArgumentException {
        MemberSet one = setAt(set);
        checkRange(first, LEAST_NUMBER, GREATEST_NUMBER);
        checkRange(step, -MOST_STEP, MOST_STEP);
        checkRange(many, 0, MOST_NUMBERS);
        int before = one.count();
        for (int i = 0; i < many; i++) {
            int number = first + i * step;
            if (isNumber(number)) {
                one.put(number + INDEX_OF_ZERO);
            }
        }
        return one.count() - before;
    }

    public int memberAt(int set, int index) throws IndexOutOfBoundsException, NoSuchElementException {
        int found = setAt(set).indexAt(index);
        if (found == NONE) {
            throw new NoSuchElementException("the set has no such member");
        }
        return memberOfIndex(found);
    }

    public int least(int set) throws IndexOutOfBoundsException, NoSuchElementException {
        return numberOf(setAt(set).firstNumber());
    }

    public int greatest(int set) throws IndexOutOfBoundsException, NoSuchElementException {
        return numberOf(setAt(set).lastNumber());
    }

    public boolean unite(int set, int other) throws IndexOutOfBoundsException {
        return setAt(set).combine(UNION, setAt(other));
    }

    public boolean meet(int set, int other) throws IndexOutOfBoundsException {
        return setAt(set).combine(MEET, setAt(other));
    }

    public boolean without(int set, int other) throws IndexOutOfBoundsException {
        return setAt(set).combine(WITHOUT, setAt(other));
    }

    public int copy(int set, int from) throws IndexOutOfBoundsException {
        MemberSet one = setAt(set);
        one.become(setAt(from));
        return one.count();
    }

    public int sieve(int set, int modulus, int rest) throws IndexOutOfBoundsException, IllegalArgumentException {
        MemberSet one = setAt(set);
        checkRange(modulus, 1, MOST_MODULUS);
        checkRange(rest, 0, MOST_MODULUS - 1);
        int before = one.count();
        for (int number = LEAST_NUMBER; number <= GREATEST_NUMBER; number++) {
            if (Math.floorMod(number, modulus) == rest) {
                one.takeOut(number + INDEX_OF_ZERO);
            }
        }
        return before - one.count();
    }

    public boolean isWithin(int set, int other) throws IndexOutOfBoundsException {
        MemberSet one = setAt(set);
        return setAt(other).holdsAll(one);
    }

    public boolean isApart(int set, int other) throws IndexOutOfBoundsException {
        MemberSet one = setAt(set);
        return one.sharesNone(setAt(other));
    }

    public boolean isSame(int set, int other) throws IndexOutOfBoundsException {
        MemberSet one = setAt(set);
        return one.sameAs(setAt(other));
    }

    public int vote(int member) throws IllegalArgumentException {
        return votesFor(indexOfMember(member));
    }

    public int elect(int set, int quorum) throws IndexOutOfBoundsException, IllegalArgumentException {
        MemberSet one = setAt(set);
        checkRange(quorum, 1, SETS);
        // The set votes as it was before, so that the elected go to a spare set first.
        spare.empty();
        for (int index = 0; index < INDEXES; index++) {
            if (votesFor(index) >= quorum) {
                spare.put(index);
            }
        }
        one.become(spare);
        return one.count();
    }

    public boolean keep(int set) throws IndexOutOfBoundsException, IllegalStateException {
        MemberSet one = setAt(set);
        if (family.find(one) != NONE) {
            return false;
        }
        if (!family.enter(one)) {
            throw new IllegalStateException("the family is full");
        }
        return true;
    }

    public boolean drop(int set) throws IndexOutOfBoundsException {
        return family.leave(setAt(set));
    }

    public boolean isKept(int set) throws IndexOutOfBoundsException {
        return family.find(setAt(set)) != NONE;
    }

    public int kept() {
        return family.count();
    }

    public int keptSum() {
        return family.total();
    }

    public int dropAll() {
        int before = family.count();
        family.empty();
        return before;
    }

    public int placeOf(int set) throws IndexOutOfBoundsException {
        return family.find(setAt(set));
    }

    public int take(int set, int place) throws IndexOutOfBoundsException, NoSuchElementException {
        MemberSet one = setAt(set);
        if (!family.hasPlace(place)) {
            throw new NoSuchElementException("the family has no such place");
        }
        family.tell(place, one);
        return one.count();
    }

    public int spread(int how) throws IllegalArgumentException {
        checkRange(how, UNION, WITHOUT);
        draft.become(family);
        if (!family.spreadInto(draft, how)) {
            return NONE;
        }
        int came = draft.count() - family.count();
        family.become(draft);
        return came;
    }

    public boolean isClosed(int how) throws IllegalArgumentException {
        checkRange(how, UNION, WITHOUT);
        return family.closedUnder(how);
    }

    public boolean isChain() {
        return family.allNested();
    }

    public int primes() {
        return Integer.bitCount(family.primePlaces());
    }

    public int primesWithin(int set) throws IndexOutOfBoundsException {
        MemberSet one = setAt(set);
        return Integer.bitCount(family.placesWithin(family.primePlaces(), one));
    }

    public int type(long bytes) throws IllegalStateException {
        if (!text.append(bytes)) {
            throw new IllegalStateException("the text would be too long");
        }
        return text.length();
    }

    public int clearText() {
        int before = text.length();
        text.empty();
        return before;
    }

    public int textLength() {
        return text.length();
    }

    public int example(int which) throws IllegalArgumentException {
        checkRange(which, 0, 2);
        text.become(which == 0 ? EXAMPLE_0 : which == 1 ? EXAMPLE_1 : EXAMPLE_2);
        return text.length();
    }

    public int errorKind() {
        reader.read(sets);
        return reader.kind();
    }

    public int errorPlace() {
        reader.read(sets);
        return reader.place();
    }

    public int run() throws IllegalStateException {
        reader.read(sets);
        if (reader.kind() != 0) {
            throw new IllegalStateException("the text has an error");
        }
        reader.tellSets(sets);
        return reader.statements();
    }

    public boolean viewHas(int set, int member) throws IndexOutOfBoundsException, IllegalArgumentException {
        View view = viewAt(set);
        return view.shows(indexOfMember(member));
    }

    public boolean viewRefuses(int set, int what, int member) throws IndexOutOfBoundsException, IllegalArgumentException {
        MemberSet one = setAt(set);
        View view = viewAt(set);
        checkRange(what, 0, 6);
        int index = indexOfMember(member);
        if (what == 6 && one.count() == 0) {
            return false;
        }
        spare.become(one);
        return isRefusedByView(view, what, index) && one.sameAs(spare);
    }

    public int walkRefuses(int set, int what) throws IndexOutOfBoundsException, IllegalArgumentException {
        MemberSet one = setAt(set);
        checkRange(what, 0, 2);
        spare.become(one);
        try {
            walkWrongly(spare, what);
            return NONE;
        } catch (NoSuchElementException noElement) {
            return NO_ELEMENT;
        } catch (IllegalStateException noState) {
            return NO_STATE;
        }
    }

    public boolean nullRefuses(int set, int what) throws IndexOutOfBoundsException, IllegalArgumentException {
        MemberSet one = setAt(set);
        checkRange(what, 0, 3);
        spare.become(one);
        return isRefusedWithoutOther(one, what) && one.sameAs(spare);
    }

    public int lawErrors(int a, int b, int c) throws IndexOutOfBoundsException {
        MemberSet first = setAt(a);
        MemberSet second = setAt(b);
        MemberSet third = setAt(c);
        return laws.errorsEachWay(first, second, third);
    }

    public int familyErrors() {
        return family.errors();
    }

    public double meanSize() {
        int sizes = 0;
        for (int i = 0; i < sets.length; i++) {
            sizes += sets[i].count();
        }
        return (double) sizes / 8.0;
    }

    public float nothingShare() {
        return (float) votesFor(0) / 8.0f;
    }

    private MemberSet setAt(int set) {
        if (set < 0 || set >= sets.length) {
            throw new IndexOutOfBoundsException("there is no such set");
        }
        return sets[set];
    }

    private View viewAt(int set) {
        if (set < 0 || set >= views.length) {
            throw new IndexOutOfBoundsException("there is no such set");
        }
        return views[set];
    }

    private static void checkRange(int value, int from, int to) {
        if (value < from || value > to) {
            throw new IllegalArgumentException("a parameter is out of range");
        }
    }

    private static boolean isNumber(int value) {
        return value >= LEAST_NUMBER && value <= GREATEST_NUMBER;
    }

    private static int indexOfMember(int member) {
        if (member == NOTHING) {
            return 0;
        }
        if (!isNumber(member)) {
            throw new IllegalArgumentException("there is no such member");
        }
        return member + INDEX_OF_ZERO;
    }

    private static int memberOfIndex(int index) {
        return index == 0 ? NOTHING : index - INDEX_OF_ZERO;
    }

    private static int numberOf(int index) {
        if (index == NONE) {
            throw new NoSuchElementException("the set has no number");
        }
        return index - INDEX_OF_ZERO;
    }

    private int votesFor(int index) {
        int votes = 0;
        for (int i = 0; i < sets.length; i++) {
            if (sets[i].holds(index)) {
                votes++;
            }
        }
        return votes;
    }

    private boolean isRefusedByView(View view, int what, int index) {
        try {
            changeByView(view, what, index);
            return false;
        } catch (UnsupportedOperationException refused) {
            return true;
        }
    }

    private void changeByView(View view, int what, int index) {
        switch (what) {
            case 0: view.put(index); break;
            case 1: view.takeOut(index); break;
            case 2: view.combine(UNION, setAt(0)); break;
            case 3: view.combine(MEET, setAt(0)); break;
            case 4: view.combine(WITHOUT, setAt(0)); break;
            case 5: view.empty(); break;
            default:
                Walk walk = view.walk();
                walk.step();
                walk.takeOutLast();
                break;
        }
    }

    private static void walkWrongly(MemberSet through, int what) {
        int members = through.count();
        Walk walk = new Walk(through, true);
        if (what == 0) {
            for (int i = 0; i <= members; i++) {
                walk.step();
            }
        } else if (what == 1) {
            walk.takeOutLast();
        } else {
            walk.step();
            walk.takeOutLast();
            walk.takeOutLast();
        }
    }

    private static boolean isRefusedWithoutOther(MemberSet one, int what) {
        MemberSet nobody = null;
        try {
            switch (what) {
                case 0: one.combine(UNION, nobody); break;
                case 1: one.combine(MEET, nobody); break;
                case 2: one.combine(WITHOUT, nobody); break;
                default: one.holdsAll(nobody); break;
            }
            return false;
        } catch (IllegalArgumentException refused) {
            return true;
        }
    }

    /** A set of members, a bit for each index: those below 64 in low, the others in high. */
    private static final class MemberSet {
        private long low;
        private long high;

        MemberSet() {
            low = 0L;
            high = 0L;
        }

        boolean holds(int index) {
            if (index < 0 || index >= INDEXES) {
                return false;
            }
            long bits = index < LONG_BITS ? low : high;
            return (bits >>> (index % LONG_BITS) & 1L) != 0L;
        }

        boolean put(int index) {
            if (index < 0 || index >= INDEXES || holds(index)) {
                return false;
            }
            flip(index);
            return true;
        }

        boolean takeOut(int index) {
            if (!holds(index)) {
                return false;
            }
            flip(index);
            return true;
        }

        private void flip(int index) {
            long bit = 1L << (index % LONG_BITS);
            if (index < LONG_BITS) {
                low ^= bit;
            } else {
                high ^= bit;
            }
        }

        void empty() {
            low = 0L;
            high = 0L;
        }

        void become(MemberSet other) {
            low = other.low;
            high = other.high;
        }

        /** Makes this set what it and the other one give together; tells whether it is another one than before. */
        boolean combine(int how, MemberSet other) {
            if (other == null) {
                throw new IllegalArgumentException("there is no other set");
            }
            long lowBefore = low;
            long highBefore = high;
            switch (how) {
                case UNION:
                    low |= other.low;
                    high |= other.high;
                    break;
                case MEET:
                    low &= other.low;
                    high &= other.high;
                    break;
                case WITHOUT:
                    low = lowBefore & ~other.low;
                    high = highBefore & ~other.high;
                    break;
                default:
                    low ^= other.low;
                    high ^= other.high;
                    break;
            }
            return low != lowBefore || high != highBefore;
        }

        boolean holdsAll(MemberSet other) {
            if (other == null) {
                throw new IllegalArgumentException("there is no other set");
            }
            return (other.low & ~low) == 0L && (other.high & ~high) == 0L;
        }

        boolean sharesNone(MemberSet other) {
            return (low & other.low) == 0L && (high & other.high) == 0L;
        }

        boolean sameAs(MemberSet other) {
            return low == other.low && high == other.high;
        }

        /** Tells whether this set has the first member, by the order of members, that just one of both has. */
        boolean comesBefore(MemberSet other) {
            long differing = low ^ other.low;
            if (differing != 0L) {
                return (low & differing & -differing) != 0L;
            }
            differing = high ^ other.high;
            return (high & differing & -differing) != 0L;
        }

        int count() {
            return Long.bitCount(low) + Long.bitCount(high);
        }

        int total() {
            int result = 0;
            for (int index = 1; index < INDEXES; index++) {
                if (holds(index)) {
                    result += index - INDEX_OF_ZERO;
                }
            }
            return result;
        }

        /** The index of the member at a position; NONE if there are not so many. */
        int indexAt(int position) {
            if (position < 0) {
                return NONE;
            }
            int passed = 0;
            for (int index = 0; index < INDEXES; index++) {
                if (holds(index)) {
                    if (passed == position) {
                        return index;
                    }
                    passed++;
                }
            }
            return NONE;
        }

        int firstNumber() {
            for (int index = 1; index < INDEXES; index++) {
                if (holds(index)) {
                    return index;
                }
            }
            return NONE;
        }

        int lastNumber() {
            for (int index = INDEXES - 1; index > 0; index--) {
                if (holds(index)) {
                    return index;
                }
            }
            return NONE;
        }
    }

    /** A walk through the members of a set, by their order, that can take out what it has just come to. */
    private static final class Walk {
        private final MemberSet through;
        private final boolean mayTakeOut;
        private int next;
        private int last;

        Walk(MemberSet through, boolean mayTakeOut) {
            this.through = through;
            this.mayTakeOut = mayTakeOut;
            next = 0;
            last = NONE;
        }

        int step() {
            for (int index = next; index < INDEXES; index++) {
                if (through.holds(index)) {
                    last = index;
                    next = index + 1;
                    return index;
                }
            }
            throw new NoSuchElementException("the walk has no further member");
        }

        void takeOutLast() {
            if (!mayTakeOut) {
                throw new UnsupportedOperationException("a view cannot be changed");
            }
            if (last == NONE) {
                throw new IllegalStateException("there is no member to remove");
            }
            through.takeOut(last);
            last = NONE;
        }
    }

    /** Shows a set as it is at any time, and refuses each change. */
    private static final class View {
        private final MemberSet behind;

        View(MemberSet behind) {
            this.behind = behind;
        }

        boolean shows(int index) {
            return behind.holds(index);
        }

        boolean put(int index) {
            throw new UnsupportedOperationException("a view cannot be changed");
        }

        boolean takeOut(int index) {
            throw new UnsupportedOperationException("a view cannot be changed");
        }

        boolean combine(int how, MemberSet other) {
            throw new UnsupportedOperationException("a view cannot be changed");
        }

        void empty() {
            throw new UnsupportedOperationException("a view cannot be changed");
        }

        Walk walk() {
            return new Walk(behind, false);
        }
    }

    /** At most 7 sets, each one once, by the order of sets. Some of its places are told as bits of a number. */
    private static final class Family {
        private final MemberSet[] held;
        private final MemberSet made;
        private int count;

        Family() {
            held = new MemberSet[MOST_KEPT];
            for (int i = 0; i < MOST_KEPT; i++) {
                held[i] = new MemberSet();
            }
            made = new MemberSet();
            count = 0;
        }

        int count() {
            return count;
        }

        void empty() {
            count = 0;
        }

        void become(Family other) {
            count = other.count;
            for (int i = 0; i < count; i++) {
                held[i].become(other.held[i]);
            }
        }

        int total() {
            int result = 0;
            for (int i = 0; i < count; i++) {
                result += held[i].total();
            }
            return result;
        }

        boolean hasPlace(int place) {
            return place >= 0 && place < count;
        }

        void tell(int place, MemberSet to) {
            if (hasPlace(place)) {
                to.become(held[place]);
            }
        }

        int find(MemberSet one) {
            for (int i = 0; i < count; i++) {
                if (held[i].sameAs(one)) {
                    return i;
                }
            }
            return NONE;
        }

        /** Takes a copy of a set in; tells whether it is there then, which it is not if the family is full. */
        boolean enter(MemberSet one) {
            if (find(one) != NONE) {
                return true;
            }
            if (count >= MOST_KEPT) {
                return false;
            }
            int place = count;
            while (place > 0 && one.comesBefore(held[place - 1])) {
                held[place].become(held[place - 1]);
                place--;
            }
            held[place].become(one);
            count++;
            return true;
        }

        boolean leave(MemberSet one) {
            int place = find(one);
            if (place == NONE) {
                return false;
            }
            for (int i = place + 1; i < count; i++) {
                held[i - 1].become(held[i]);
            }
            count--;
            return true;
        }

        /** Puts into another family what each two sets give together; tells whether it had room for all. */
        boolean spreadInto(Family other, int how) {
            for (int i = 0; i < count; i++) {
                for (int j = 0; j < count; j++) {
                    if (i != j) {
                        make(how, i, j);
                        if (!other.enter(made)) {
                            return false;
                        }
                    }
                }
            }
            return true;
        }

        boolean closedUnder(int how) {
            for (int i = 0; i < count; i++) {
                for (int j = 0; j < count; j++) {
                    if (i != j) {
                        make(how, i, j);
                        if (find(made) == NONE) {
                            return false;
                        }
                    }
                }
            }
            return true;
        }

        private void make(int how, int first, int second) {
            made.become(held[first]);
            made.combine(how, held[second]);
        }

        boolean allNested() {
            for (int i = 0; i < count; i++) {
                for (int j = i + 1; j < count; j++) {
                    if (!held[i].holdsAll(held[j]) && !held[j].holdsAll(held[i])) {
                        return false;
                    }
                }
            }
            return true;
        }

        int primePlaces() {
            int places = 0;
            for (int i = 0; i < count; i++) {
                int others = allPlaces() & ~(1 << i);
                if (!isUnionOf(i, placesWithin(others, held[i]))) {
                    places |= 1 << i;
                }
            }
            return places;
        }

        private int allPlaces() {
            return (1 << count) - 1;
        }

        /** Those of some places whose sets are within a set. */
        int placesWithin(int places, MemberSet one) {
            int found = 0;
            for (int i = 0; i < count; i++) {
                if ((places >> i & 1) != 0 && one.holdsAll(held[i])) {
                    found |= 1 << i;
                }
            }
            return found;
        }

        private boolean isUnionOf(int place, int places) {
            made.empty();
            for (int i = 0; i < count; i++) {
                if ((places >> i & 1) != 0) {
                    made.combine(UNION, held[i]);
                }
            }
            return made.sameAs(held[place]);
        }

        /** Each set should be the union of the primes within it, and no two should have the same primes. */
        int errors() {
            int primePlaces = primePlaces();
            int result = 0;
            for (int i = 0; i < count; i++) {
                int ofFirst = placesWithin(primePlaces, held[i]);
                if (!isUnionOf(i, ofFirst)) {
                    result++;
                }
                for (int j = i + 1; j < count; j++) {
                    if (ofFirst == placesWithin(primePlaces, held[j])) {
                        result++;
                    }
                }
            }
            return result;
        }
    }

    /** Tries the laws of union, meet and taking away on three sets. */
    private static final class Laws {
        private final MemberSet left;
        private final MemberSet right;
        private final MemberSet part;

        Laws() {
            left = new MemberSet();
            right = new MemberSet();
            part = new MemberSet();
        }

        int errorsEachWay(MemberSet a, MemberSet b, MemberSet c) {
            return errorsOf(a, b, c) + errorsOf(a, c, b)
                + errorsOf(b, a, c) + errorsOf(b, c, a)
                + errorsOf(c, a, b) + errorsOf(c, b, a);
        }

        private int errorsOf(MemberSet a, MemberSet b, MemberSet c) {
            return orderErrors(UNION, a, b) + orderErrors(MEET, a, b)
                + bracketErrors(UNION, a, b, c) + bracketErrors(MEET, a, b, c)
                + itselfErrors(a)
                + partErrors(UNION, MEET, a, b, c) + partErrors(MEET, UNION, a, b, c)
                + withoutErrors(UNION, MEET, a, b, c) + withoutErrors(MEET, UNION, a, b, c)
                + withinErrors(a, b)
                + sizeErrors(a, b, c);
        }

        private int orderErrors(int how, MemberSet a, MemberSet b) {
            make(left, how, a, b);
            make(right, how, b, a);
            return sidesDiffer();
        }

        private int bracketErrors(int how, MemberSet a, MemberSet b, MemberSet c) {
            make(left, how, a, b);
            left.combine(how, c);
            make(part, how, b, c);
            make(right, how, a, part);
            return sidesDiffer();
        }

        private int itselfErrors(MemberSet a) {
            make(left, UNION, a, a);
            make(right, MEET, a, a);
            make(part, WITHOUT, a, a);
            return (left.sameAs(a) ? 0 : 1) + (right.sameAs(a) ? 0 : 1) + (part.count() == 0 ? 0 : 1);
        }

        /** As a & (b | c) is (a & b) | (a & c). */
        private int partErrors(int inner, int outer, MemberSet a, MemberSet b, MemberSet c) {
            make(part, inner, b, c);
            make(left, outer, a, part);
            make(part, outer, a, c);
            make(right, outer, a, b);
            right.combine(inner, part);
            return sidesDiffer();
        }

        /** As a - (b | c) is (a - b) & (a - c). */
        private int withoutErrors(int inner, int turned, MemberSet a, MemberSet b, MemberSet c) {
            make(part, inner, b, c);
            make(left, WITHOUT, a, part);
            make(part, WITHOUT, a, c);
            make(right, WITHOUT, a, b);
            right.combine(turned, part);
            return sidesDiffer();
        }

        /** That a is within b says the same as each of: their union is b, their meet is a, a - b is empty. */
        private int withinErrors(MemberSet a, MemberSet b) {
            boolean within = b.holdsAll(a);
            make(left, UNION, a, b);
            make(right, MEET, a, b);
            make(part, WITHOUT, a, b);
            return (within == left.sameAs(b) ? 0 : 1)
                + (within == right.sameAs(a) ? 0 : 1)
                + (within == (part.count() == 0) ? 0 : 1);
        }

        private int sizeErrors(MemberSet a, MemberSet b, MemberSet c) {
            make(left, UNION, a, b);
            left.combine(UNION, c);
            make(right, MEET, a, b);
            int size = a.count() + b.count() + c.count() - right.count();
            right.combine(MEET, c);
            size += right.count();
            make(right, MEET, a, c);
            size -= right.count();
            make(right, MEET, b, c);
            size -= right.count();
            return left.count() == size ? 0 : 1;
        }

        private static void make(MemberSet into, int how, MemberSet first, MemberSet second) {
            into.become(first);
            into.combine(how, second);
        }

        private int sidesDiffer() {
            return left.sameAs(right) ? 0 : 1;
        }
    }

    /** At most 200 bytes from 1 to 255. */
    private static final class Text {
        private final char[] bytes;
        private int length;

        Text() {
            bytes = new char[MOST_BYTES];
            length = 0;
        }

        int length() {
            return length;
        }

        void empty() {
            length = 0;
        }

        /** The byte at a place; 0, which no byte is, where the text has none. */
        int byteAt(int place) {
            return place >= 0 && place < length ? bytes[place] : 0;
        }

        /** Puts the bytes of a number behind the text, if there is room; tells whether there was. */
        boolean append(long number) {
            int many = 0;
            for (int shift = 56; shift >= 0; shift -= 8) {
                if ((number >>> shift & 255L) != 0L) {
                    many++;
                }
            }
            if (length + many > MOST_BYTES) {
                return false;
            }
            for (int shift = 56; shift >= 0; shift -= 8) {
                appendByte((int) (number >>> shift & 255L));
            }
            return true;
        }

        void become(String program) {
            length = 0;
            for (int i = 0; i < program.length(); i++) {
                appendByte(program.charAt(i));
            }
        }

        private void appendByte(int value) {
            if (value != 0 && length < MOST_BYTES) {
                bytes[length] = (char) value;
                length++;
            }
        }
    }

    /**
     * Reads the text as a program, from the front up to the first error, sign by sign: what may stand next is a
     * state. It does the statements on sets of its own while it reads, so that an error changes none of the council's.
     */
    private static final class Reader {
        private static final int START = 0, EQUALS = 1, FACTOR = 2, BEHIND_FACTOR = 3;
        private static final int FIRST_ITEM = 4, ITEM = 5, BEHIND_NUMBER = 6, SECOND_NUMBER = 7, BEHIND_ITEM = 8;

        private final Text text;
        private final MemberSet[] named;
        private final MemberSet braces;

        /** A row for each number of brackets that are open: the sum up to the last sign, and the part behind it. */
        private final MemberSet[] sums;
        private final MemberSet[] parts;
        private final int[] sumSigns;
        private final boolean[] partBegun;

        private int at;
        private int state;
        private int open;
        private int target;
        private int first;
        private int statements;
        private int kind;
        private int place;

        Reader(Text text) {
            this.text = text;
            named = new MemberSet[SETS];
            for (int i = 0; i < SETS; i++) {
                named[i] = new MemberSet();
            }
            braces = new MemberSet();
            sums = new MemberSet[MOST_OPEN + 1];
            parts = new MemberSet[MOST_OPEN + 1];
            for (int i = 0; i <= MOST_OPEN; i++) {
                sums[i] = new MemberSet();
                parts[i] = new MemberSet();
            }
            sumSigns = new int[MOST_OPEN + 1];
            partBegun = new boolean[MOST_OPEN + 1];
            place = NONE;
        }

        int kind() {
            return kind;
        }

        int place() {
            return place;
        }

        int statements() {
            return statements;
        }

        void tellSets(MemberSet[] to) {
            for (int i = 0; i < to.length && i < named.length; i++) {
                to[i].become(named[i]);
            }
        }

        void read(MemberSet[] from) {
            begin(from);
            // Each sign takes a byte at least, so that there are not more signs than bytes.
            for (int turn = 0; turn <= MOST_BYTES && kind == 0; turn++) {
                passBlanks();
                if (at >= text.length()) {
                    break;
                }
                readSign(text.byteAt(at));
            }
            if (kind == 0 && state != START) {
                refuseByte();
            }
        }

        private void begin(MemberSet[] from) {
            for (int i = 0; i < from.length && i < named.length; i++) {
                named[i].become(from[i]);
            }
            at = 0;
            state = START;
            open = 0;
            statements = 0;
            kind = 0;
            place = NONE;
        }

        private void fail(int errorKind, int errorPlace) {
            kind = errorKind;
            place = errorPlace;
        }

        /** The place is the text's length if the text has ended. */
        private void refuseByte() {
            fail(ERROR_BYTE, at);
        }

        private void pass(int nextState) {
            at++;
            state = nextState;
        }

        private void passBlanks() {
            while (at < text.length() && (text.byteAt(at) == ' ' || text.byteAt(at) == '\n')) {
                at++;
            }
        }

        private void readSign(int sign) {
            switch (state) {
                case START: readTarget(sign); break;
                case EQUALS: readEquals(sign); break;
                case FACTOR: readFactor(sign); break;
                case BEHIND_FACTOR: readBehindFactor(sign); break;
                case FIRST_ITEM: readFirstItem(sign); break;
                case ITEM: readItem(sign); break;
                case BEHIND_NUMBER: readBehindNumber(sign); break;
                case SECOND_NUMBER: readSecondNumber(sign); break;
                default: readBehindItem(sign); break;
            }
        }

        private static boolean isName(int sign) {
            return sign >= 'a' && sign <= 'h';
        }

        private void readTarget(int sign) {
            if (isName(sign)) {
                target = sign - 'a';
                pass(EQUALS);
            } else {
                refuseByte();
            }
        }

        private void readEquals(int sign) {
            if (sign == '=') {
                beginSum();
                pass(FACTOR);
            } else {
                refuseByte();
            }
        }

        private void readFactor(int sign) {
            if (isName(sign)) {
                useFactor(named[sign - 'a']);
                pass(BEHIND_FACTOR);
            } else if (sign == '{') {
                braces.empty();
                pass(FIRST_ITEM);
            } else if (sign == '(') {
                openBracket();
            } else {
                refuseByte();
            }
        }

        private void openBracket() {
            if (open >= MOST_OPEN) {
                fail(ERROR_VALUE, at);
            } else {
                open++;
                beginSum();
                pass(FACTOR);
            }
        }

        private void readBehindFactor(int sign) {
            if (sign == '&') {
                pass(FACTOR);
            } else if (sign == '|') {
                endPart(UNION);
                pass(FACTOR);
            } else if (sign == '-') {
                endPart(WITHOUT);
                pass(FACTOR);
            } else if (sign == '^') {
                endPart(EITHER);
                pass(FACTOR);
            } else if (sign == ')' && open > 0) {
                closeBracket();
            } else if (sign == ';' && open == 0) {
                endStatement();
            } else {
                refuseByte();
            }
        }

        private void closeBracket() {
            endPart(UNION);
            MemberSet inner = sums[open];
            open--;
            useFactor(inner);
            pass(BEHIND_FACTOR);
        }

        private void endStatement() {
            endPart(UNION);
            named[target].become(sums[0]);
            statements++;
            pass(START);
        }

        /** The first part of a sum comes to the empty set by a union. */
        private void beginSum() {
            sums[open].empty();
            sumSigns[open] = UNION;
            partBegun[open] = false;
        }

        private void useFactor(MemberSet factor) {
            if (partBegun[open]) {
                parts[open].combine(MEET, factor);
            } else {
                parts[open].become(factor);
                partBegun[open] = true;
            }
        }

        private void endPart(int nextSign) {
            sums[open].combine(sumSigns[open], parts[open]);
            sumSigns[open] = nextSign;
            partBegun[open] = false;
        }

        private void readFirstItem(int sign) {
            if (sign == '}') {
                useFactor(braces);
                pass(BEHIND_FACTOR);
            } else {
                readItem(sign);
            }
        }

        private void readItem(int sign) {
            if (sign == '#') {
                braces.put(0);
                pass(BEHIND_ITEM);
            } else if (sign == '-' || isDigit(sign)) {
                first = readNumber(sign, LEAST_NUMBER);
                braces.put(first + INDEX_OF_ZERO);
                state = BEHIND_NUMBER;
            } else {
                refuseByte();
            }
        }

        private void readBehindNumber(int sign) {
            if (sign == '.') {
                at++;
                if (text.byteAt(at) == '.') {
                    pass(SECOND_NUMBER);
                } else {
                    refuseByte();
                }
            } else {
                readBehindItem(sign);
            }
        }

        private void readSecondNumber(int sign) {
            if (sign == '-' || isDigit(sign)) {
                int second = readNumber(sign, first);
                for (int number = first; number <= second && number <= GREATEST_NUMBER; number++) {
                    braces.put(number + INDEX_OF_ZERO);
                }
                state = BEHIND_ITEM;
            } else {
                refuseByte();
            }
        }

        private void readBehindItem(int sign) {
            if (sign == ',') {
                pass(ITEM);
            } else if (sign == '}') {
                useFactor(braces);
                pass(BEHIND_FACTOR);
            } else {
                refuseByte();
            }
        }

        private static boolean isDigit(int sign) {
            return sign >= '0' && sign <= '9';
        }

        /** Reads a number that must be from a least one to 50; after an error its answer means nothing. */
        private int readNumber(int sign, int least) {
            int begin = at;
            if (sign == '-') {
                at++;
            }
            if (!isDigit(text.byteAt(at))) {
                fail(ERROR_BYTE, at);
                return 0;
            }
            int size = 0;
            for (; at < text.length() && isDigit(text.byteAt(at)); at++) {
                // A size above 50 is an error already; further digits could only overflow it.
                if (size <= GREATEST_NUMBER) {
                    size = size * 10 + (text.byteAt(at) - '0');
                }
            }
            int number = sign == '-' ? -size : size;
            if (number < least || number > GREATEST_NUMBER) {
                fail(ERROR_VALUE, begin);
                return 0;
            }
            return number;
        }
    }
}
