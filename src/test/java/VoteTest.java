/** Promises 20, 21, 48 and 49: what is asked of all eight sets. */
public final class VoteTest {
    public static void main(String[] args) {
        votes();
        elections();
        theElectorIsAsBefore();
        wrongVotes();
        means();
        shares();
        Checks.end();
    }

    /** Set i has the numbers from 0 to i, so that the vote on a number from 0 to 7 is 8 without it. */
    private static SetCouncil stairs() {
        SetCouncil council = new SetCouncil();
        for (int set = 0; set < 8; set++) {
            council.fill(set, 0, 1, set + 1);
        }
        return council;
    }

    private static void votes() {
        SetCouncil council = stairs();
        for (int number = 0; number < 8; number++) {
            Checks.due("vote on " + number, council.vote(number), 8 - number);
        }
        Checks.due("vote on what none has", council.vote(8), 0);
        Checks.due("vote on -50", council.vote(-50), 0);
        Checks.due("vote on 50", council.vote(50), 0);
        Checks.due("vote on NOTHING", council.vote(100), 0);
        council.add(3, 100);
        council.add(7, 100);
        council.add(0, -50);
        council.add(7, 50);
        Checks.due("vote on NOTHING of two", council.vote(100), 2);
        Checks.due("vote on -50 of the first set", council.vote(-50), 1);
        Checks.due("vote on 50 of the last set", council.vote(50), 1);
    }

    private static void elections() {
        for (int quorum = 1; quorum <= 8; quorum++) {
            SetCouncil council = stairs();
            Checks.due("elect by " + quorum, council.elect(4, quorum), 9 - quorum);
            Checks.due("the greatest one elected by " + quorum, council.greatest(4), 8 - quorum);
            Checks.due("the others behind that", council.size(5), 6);
        }
        SetCouncil council = Councils.of(new int[] {100, 50, -50}, new int[] {100, 50, -50}, new int[] {100, 1});
        Checks.due("elect by 2", council.elect(7, 2), 3);
        Checks.due("those elected", Snapshot.members(council, 7), "[100 -50 50]");
        Checks.due("elect by 4", council.elect(7, 4), 1);
        Checks.due("those elected", Snapshot.members(council, 7), "[100]");
        Checks.due("elect by 8", council.elect(7, 8), 0);
        Checks.due("those elected", Snapshot.members(council, 7), "[]");
    }

    private static void theElectorIsAsBefore() {
        SetCouncil council = Councils.of(new int[] {1, 2, 3}, new int[] {2, 3}, new int[] {3, 4});
        Checks.due("elect into a set that votes", council.elect(0, 2), 2);
        Checks.due("those elected", Snapshot.members(council, 0), "[2 3]");
        Checks.due("elect by 3", council.elect(0, 3), 1);
        Checks.due("those elected", Snapshot.members(council, 0), "[3]");
        Checks.due("elect by 1", council.elect(0, 1), 3);
        Checks.due("those elected", Snapshot.members(council, 0), "[2 3 4]");
    }

    private static void wrongVotes() {
        int[] wrongMembers = {-51, 51, 99, 101, Integer.MIN_VALUE, Integer.MAX_VALUE};
        for (int member : wrongMembers) {
            Checks.illegalArgument("vote on " + member, Councils::furnished, council -> council.vote(member));
        }
        int[] wrongQuorums = {0, 9, -1, Integer.MIN_VALUE, Integer.MAX_VALUE};
        for (int quorum : wrongQuorums) {
            Checks.illegalArgument("elect by " + quorum, Councils::furnished, council -> council.elect(0, quorum));
        }
        int[] wrongSets = {-1, 8, Integer.MIN_VALUE, Integer.MAX_VALUE};
        for (int set : wrongSets) {
            Checks.outOfBounds("elect into " + set, Councils::furnished, council -> council.elect(set, 1));
            Checks.outOfBounds("elect wrongly into " + set, Councils::furnished, council -> council.elect(set, 0));
        }
    }

    private static void means() {
        SetCouncil council = new SetCouncil();
        Checks.due("meanSize of empty sets", council.meanSize(), 0.0);
        council.add(0, 100);
        Checks.due("meanSize of one member", council.meanSize(), 0.125);
        council.fill(7, 0, 1, 10);
        Checks.due("meanSize of 11 members", council.meanSize(), 1.375);
        for (int set = 0; set < 8; set++) {
            council.fill(set, -50, 1, 101);
            council.add(set, 100);
        }
        Checks.due("meanSize of all members", council.meanSize(), 102.0);
    }

    private static void shares() {
        SetCouncil council = new SetCouncil();
        Checks.due("nothingShare of empty sets", council.nothingShare(), 0.0f);
        council.fill(0, -50, 1, 101);
        Checks.due("nothingShare of numbers", council.nothingShare(), 0.0f);
        for (int set = 7; set >= 0; set--) {
            council.add(set, 100);
            Checks.due("nothingShare of " + (8 - set), council.nothingShare(), (8 - set) / 8.0f);
        }
        council.remove(3, 100);
        Checks.due("nothingShare of 7 behind remove", council.nothingShare(), 0.875f);
    }
}
