/** All that a caller can see of a council, as text, read by calls that change nothing. */
final class Snapshot {
    private Snapshot() {
    }

    /** For small sets only: a council answers 512 calls. */
    static String of(SetCouncil council) {
        StringBuilder seen = new StringBuilder();
        for (int set = 0; set < 8; set++) {
            seen.append(members(council, set));
            seen.append(" at ").append(council.placeOf(set)).append(' ');
        }
        seen.append("family ").append(council.kept()).append(' ').append(council.keptSum());
        seen.append(' ').append(council.primes());
        seen.append(" text ").append(council.textLength()).append(' ').append(council.errorKind());
        seen.append(' ').append(council.errorPlace());
        return seen.toString();
    }

    /** As of, and what the text does if it is run, and each set of the family; the council is another one afterwards. */
    static String all(SetCouncil council) {
        StringBuilder seen = new StringBuilder(of(council));
        seen.append(" run ").append(Checks.outcome(council::run)).append(' ').append(of(council));
        return seen.append(" family ").append(family(council)).toString();
    }

    static String members(SetCouncil council, int set) {
        StringBuilder seen = new StringBuilder("[");
        int size = council.size(set);
        for (int index = 0; index < size; index++) {
            seen.append(index == 0 ? "" : " ").append(council.memberAt(set, index));
        }
        return seen.append("]").toString();
    }

    /** Reads the family by taking each of its sets into the set 7, which is another one afterwards. */
    static String family(SetCouncil council) {
        StringBuilder seen = new StringBuilder();
        int kept = council.kept();
        for (int place = 0; place < kept; place++) {
            council.take(7, place);
            seen.append(members(council, 7));
        }
        return seen.toString();
    }
}
