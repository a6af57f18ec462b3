/** The boundary cases of promises 20, 21, 48 and 49: what is asked of all eight sets. */
public final class EdgesOfVotesTest {
    public static void main(String[] args) {
        Edges.run(EdgesOfVotesTest.class);
    }

    /** All eight sets have all 102 members. */
    private static SetCouncil allFull() {
        SetCouncil council = Councils.fullSet();
        for (int set = 1; set < 8; set++) {
            council.copy(set, 0);
        }
        return council;
    }

    static void promise20_membersFromMinus50To50AndNothing() {
        SetCouncil council = Councils.edged();
        Checks.due("vote on -50", council.vote(-50), 1);
        Checks.due("vote on 50", council.vote(50), 2);
        Checks.due("vote on NOTHING", council.vote(100), 2);
        Edges.noMembers(SetCouncil::vote);
    }

    static void promise20_fromNoneToAllEight() {
        for (int member : new int[] {100, -50, 12, 13, 50}) {
            SetCouncil council = new SetCouncil();
            Checks.due("vote of none on " + member, council.vote(member), 0);
            for (int set = 0; set < 8; set++) {
                council.add(set, member);
                Checks.due("vote on " + member, council.vote(member), set + 1);
            }
        }
    }

    static void promise20_allMembersOfAllSets() {
        SetCouncil council = allFull();
        Checks.due("vote on NOTHING", council.vote(100), 8);
        for (int number = -50; number <= 50; number++) {
            Checks.due("vote on " + number, council.vote(number), 8);
        }
    }

    static void promise21_setsFrom0To7() {
        Edges.sets((council, set) -> council.elect(set, 1), 8, 8);
    }

    static void promise21_quorumFrom1To8() {
        Edges.range((council, quorum) -> council.elect(0, quorum), 1, 8);
    }

    static void promise21_justEnoughVotes() {
        for (int member : new int[] {100, -50, 12, 13, 50}) {
            for (int votes = 1; votes <= 8; votes++) {
                for (int quorum = 1; quorum <= 8; quorum++) {
                    SetCouncil council = new SetCouncil();
                    for (int set = 0; set < votes; set++) {
                        council.add(set, member);
                    }
                    Checks.due("elect " + member + " by " + quorum + " of " + votes,
                        council.elect(7, quorum), votes >= quorum ? 1 : 0);
                    Checks.due("has", council.has(7, member), votes >= quorum);
                }
            }
        }
    }

    static void promise21_emptySets() {
        Checks.changesNothing("elect by 1", 0, SetCouncil::new, council -> council.elect(0, 1));
        Checks.changesNothing("elect by 8", 0, SetCouncil::new, council -> council.elect(0, 8));
    }

    static void promise21_fullSets() {
        for (int quorum = 1; quorum <= 8; quorum++) {
            Checks.due("elect by " + quorum, allFull().elect(3, quorum), 102);
        }
    }

    /** The set that is made votes itself, as it was. */
    static void promise21_asAllSetsAreBefore() {
        SetCouncil council = new SetCouncil();
        for (int set = 0; set < 8; set++) {
            council.add(set, 9);
        }
        council.add(0, 8);
        Checks.due("elect by all eight, its own vote with them", council.elect(0, 8), 1);
        Checks.due("has 9", council.has(0, 9), true);
        council.remove(0, 9);
        Checks.due("elect by eight without its own vote", council.elect(0, 8), 0);
        Checks.due("elect by seven without its own vote", council.elect(0, 7), 1);
        council.add(5, 7);
        Checks.due("elect by its own vote alone", council.elect(5, 1), 2);
    }

    static void promise21_theSetIsLookedAtFirst() {
        Edges.noSets(Councils::edged, (council, set) -> council.elect(set, 0));
        Edges.noSets(Councils::edged, (council, set) -> council.elect(set, 9));
    }

    static void promise48_emptySets() {
        Checks.changesNothing("meanSize", 0.0, SetCouncil::new, SetCouncil::meanSize);
    }

    static void promise48_fullSets() {
        Checks.due("meanSize", allFull().meanSize(), 102.0);
    }

    static void promise48_eachSetCounts() {
        SetCouncil council = new SetCouncil();
        for (int set = 0; set < 8; set++) {
            council.add(set, 100);
            Checks.due("meanSize of " + (set + 1) + " members", council.meanSize(), (set + 1) / 8.0);
        }
        council.add(7, 50);
        Checks.due("meanSize of nine members", council.meanSize(), 1.125);
    }

    static void promise49_noSetHasNothing() {
        Checks.changesNothing("nothingShare of empty sets", 0.0f, SetCouncil::new, SetCouncil::nothingShare);
        SetCouncil council = new SetCouncil();
        council.fill(0, -50, 1, 101);
        Checks.due("nothingShare of all numbers", council.nothingShare(), 0.0f);
    }

    static void promise49_allSetsHaveNothing() {
        Checks.due("nothingShare", allFull().nothingShare(), 1.0f);
    }

    static void promise49_eachSetCounts() {
        SetCouncil council = new SetCouncil();
        for (int set = 0; set < 8; set++) {
            council.add(set, 100);
            Checks.due("nothingShare of " + (set + 1), council.nothingShare(), (set + 1) / 8.0f);
        }
    }
}
