package translit

const (
	listed         = 118
	mostCandidates = 3 // of one scalar
)

// texts is what may stand in a scalar's place, the best first; empty texts behind them, where a scalar has fewer than another.
type texts [mostCandidates]string

// entry is a scalar, and what may stand in its place.
type entry struct {
	scalar     rune
	candidates texts
}

// list is the chapter's list, its scalars rising. It is made by a function, since it has too many rows for a table at package level.
func list() [listed]entry {
	return [listed]entry{
		{0x00A0, texts{" "}}, {0x00A1, texts{"!"}}, {0x00A2, texts{"c"}}, {0x00A3, texts{"GBP", "L"}},
		{0x00A5, texts{"JPY", "Y"}}, {0x00A6, texts{"!"}}, {0x00A8, texts{"\""}}, {0x00A9, texts{"(C)", "C"}},
		{0x00AB, texts{"<<", "<", "\""}}, {0x00AD, texts{"-"}}, {0x00AE, texts{"(R)", "R"}}, {0x00B1, texts{"+/-", "+"}},
		{0x00B4, texts{"'"}}, {0x00B5, texts{"u"}}, {0x00B7, texts{"."}}, {0x00B8, texts{","}},
		{0x00BB, texts{">>", ">", "\""}}, {0x00BC, texts{"1/4"}}, {0x00BD, texts{"1/2"}}, {0x00BE, texts{"3/4"}},
		{0x00BF, texts{"?"}}, {0x00C0, texts{"A"}}, {0x00C1, texts{"A"}}, {0x00C2, texts{"A"}},
		{0x00C3, texts{"A"}}, {0x00C4, texts{"Ae", "A"}}, {0x00C5, texts{"Aa", "A"}}, {0x00C6, texts{"AE"}},
		{0x00C7, texts{"C"}}, {0x00C8, texts{"E"}}, {0x00C9, texts{"E"}}, {0x00CA, texts{"E"}},
		{0x00CB, texts{"E"}}, {0x00CC, texts{"I"}}, {0x00CD, texts{"I"}}, {0x00CE, texts{"I"}},
		{0x00CF, texts{"I"}}, {0x00D0, texts{"D"}}, {0x00D1, texts{"N"}}, {0x00D2, texts{"O"}},
		{0x00D3, texts{"O"}}, {0x00D4, texts{"O"}}, {0x00D5, texts{"O"}}, {0x00D6, texts{"Oe", "O"}},
		{0x00D7, texts{"x"}}, {0x00D8, texts{"O"}}, {0x00D9, texts{"U"}}, {0x00DA, texts{"U"}},
		{0x00DB, texts{"U"}}, {0x00DC, texts{"Ue", "U"}}, {0x00DD, texts{"Y"}}, {0x00DE, texts{"Th"}},
		{0x00DF, texts{"ss"}}, {0x00E0, texts{"a"}}, {0x00E1, texts{"a"}}, {0x00E2, texts{"a"}},
		{0x00E3, texts{"a"}}, {0x00E4, texts{"ae", "a"}}, {0x00E5, texts{"aa", "a"}}, {0x00E6, texts{"ae"}},
		{0x00E7, texts{"c"}}, {0x00E8, texts{"e"}}, {0x00E9, texts{"e"}}, {0x00EA, texts{"e"}},
		{0x00EB, texts{"e"}}, {0x00EC, texts{"i"}}, {0x00ED, texts{"i"}}, {0x00EE, texts{"i"}},
		{0x00EF, texts{"i"}}, {0x00F0, texts{"d"}}, {0x00F1, texts{"n"}}, {0x00F2, texts{"o"}},
		{0x00F3, texts{"o"}}, {0x00F4, texts{"o"}}, {0x00F5, texts{"o"}}, {0x00F6, texts{"oe", "o"}},
		{0x00F7, texts{":"}}, {0x00F8, texts{"o"}}, {0x00F9, texts{"u"}}, {0x00FA, texts{"u"}},
		{0x00FB, texts{"u"}}, {0x00FC, texts{"ue", "u"}}, {0x00FD, texts{"y"}}, {0x00FE, texts{"th"}},
		{0x00FF, texts{"y"}}, {0x0110, texts{"D"}}, {0x0111, texts{"d"}}, {0x0131, texts{"i"}},
		{0x0141, texts{"L"}}, {0x0142, texts{"l"}}, {0x0152, texts{"OE"}}, {0x0153, texts{"oe"}},
		{0x0192, texts{"f"}}, {0x2013, texts{"-"}}, {0x2014, texts{"--", "-"}}, {0x2015, texts{"--", "-"}},
		{0x2018, texts{"`", "'"}}, {0x2019, texts{"\u00B4", "'"}}, {0x201A, texts{","}}, {0x201C, texts{"\u00AB", "\""}},
		{0x201D, texts{"\u00BB", "\""}}, {0x201E, texts{",,", "\""}}, {0x2020, texts{"+"}}, {0x2022, texts{"\u00B7", "o", "*"}},
		{0x2026, texts{"...", "."}}, {0x2030, texts{"o/oo"}}, {0x2039, texts{"<"}}, {0x203A, texts{">"}},
		{0x20A9, texts{"W"}}, {0x20AC, texts{"EUR", "E"}}, {0x2122, texts{"TM", "T"}}, {0x2212, texts{"-"}},
		{0x2260, texts{"/=", "!="}}, {0x2264, texts{"<=", "<"}}, {0x2265, texts{">=", ">"}}, {0x3000, texts{"  ", " "}},
		{0xFB01, texts{"fi"}}, {0xFB02, texts{"fl"}},
	}
}
