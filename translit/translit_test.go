package translit_test

import (
	"fmt"
	"maps"
	"math"
	"math/rand/v2"
	"slices"
	"strconv"
	"strings"
	"testing"
	stdutf8 "unicode/utf8"

	"dragoman/api"
	"dragoman/translit"
	"dragoman/utf8"
)

// chapterList is the document's list, letter by letter.
const chapterList = `
U+00A0: 0020
U+00A1: 0021
U+00A2: 0063
U+00A3: 0047 0042 0050; 004C
U+00A5: 004A 0050 0059; 0059
U+00A6: 0021
U+00A8: 0022
U+00A9: 0028 0043 0029; 0043
U+00AB: 003C 003C; 003C; 0022
U+00AD: 002D
U+00AE: 0028 0052 0029; 0052
U+00B1: 002B 002F 002D; 002B
U+00B4: 0027
U+00B5: 0075
U+00B7: 002E
U+00B8: 002C
U+00BB: 003E 003E; 003E; 0022
U+00BC: 0031 002F 0034
U+00BD: 0031 002F 0032
U+00BE: 0033 002F 0034
U+00BF: 003F
U+00C0: 0041
U+00C1: 0041
U+00C2: 0041
U+00C3: 0041
U+00C4: 0041 0065; 0041
U+00C5: 0041 0061; 0041
U+00C6: 0041 0045
U+00C7: 0043
U+00C8: 0045
U+00C9: 0045
U+00CA: 0045
U+00CB: 0045
U+00CC: 0049
U+00CD: 0049
U+00CE: 0049
U+00CF: 0049
U+00D0: 0044
U+00D1: 004E
U+00D2: 004F
U+00D3: 004F
U+00D4: 004F
U+00D5: 004F
U+00D6: 004F 0065; 004F
U+00D7: 0078
U+00D8: 004F
U+00D9: 0055
U+00DA: 0055
U+00DB: 0055
U+00DC: 0055 0065; 0055
U+00DD: 0059
U+00DE: 0054 0068
U+00DF: 0073 0073
U+00E0: 0061
U+00E1: 0061
U+00E2: 0061
U+00E3: 0061
U+00E4: 0061 0065; 0061
U+00E5: 0061 0061; 0061
U+00E6: 0061 0065
U+00E7: 0063
U+00E8: 0065
U+00E9: 0065
U+00EA: 0065
U+00EB: 0065
U+00EC: 0069
U+00ED: 0069
U+00EE: 0069
U+00EF: 0069
U+00F0: 0064
U+00F1: 006E
U+00F2: 006F
U+00F3: 006F
U+00F4: 006F
U+00F5: 006F
U+00F6: 006F 0065; 006F
U+00F7: 003A
U+00F8: 006F
U+00F9: 0075
U+00FA: 0075
U+00FB: 0075
U+00FC: 0075 0065; 0075
U+00FD: 0079
U+00FE: 0074 0068
U+00FF: 0079
U+0110: 0044
U+0111: 0064
U+0131: 0069
U+0141: 004C
U+0142: 006C
U+0152: 004F 0045
U+0153: 006F 0065
U+0192: 0066
U+2013: 002D
U+2014: 002D 002D; 002D
U+2015: 002D 002D; 002D
U+2018: 0060; 0027
U+2019: 00B4; 0027
U+201A: 002C
U+201C: 00AB; 0022
U+201D: 00BB; 0022
U+201E: 002C 002C; 0022
U+2020: 002B
U+2022: 00B7; 006F; 002A
U+2026: 002E 002E 002E; 002E
U+2030: 006F 002F 006F 006F
U+2039: 003C
U+203A: 003E
U+20A9: 0057
U+20AC: 0045 0055 0052; 0045
U+2122: 0054 004D; 0054
U+2212: 002D
U+2260: 002F 003D; 0021 003D
U+2264: 003C 003D; 003C
U+2265: 003E 003D; 003E
U+3000: 0020 0020; 0020
U+FB01: 0066 0069
U+FB02: 0066 006C
`

// How many scalars the chapter's list has, and how many stand beside it.
const (
	listed = 118
	wide   = 0xFF5E - 0xFF01 + 1
)

// readLine is the scalar of a line of the list, and its candidates.
func readLine(line string) (rune, []string, error) {
	head, tail, ok := strings.Cut(strings.TrimPrefix(line, "U+"), ": ")
	if !ok || !strings.HasPrefix(line, "U+") {
		return 0, nil, fmt.Errorf("%q is no line of the list", line)
	}
	u, err := readNumber(head)
	if err != nil {
		return 0, nil, err
	}
	var l []string
	for _, part := range strings.Split(tail, "; ") {
		candidate := ""
		for _, digits := range strings.Split(part, " ") {
			c, err := readNumber(digits)
			if err != nil {
				return 0, nil, err
			}
			candidate += utf8.Set(c).Bytes
		}
		l = append(l, candidate)
	}
	return u, l, nil
}

func readNumber(digits string) (rune, error) {
	n, err := strconv.ParseUint(digits, 16, 31)
	if err == nil && len(digits) != 4 {
		err = fmt.Errorf("%q is not of four digits", digits)
	}
	return rune(n), err
}

// model is all scalars that have candidates, by the document, apart from the program.
type model map[rune][]string

func newModel(t *testing.T) model {
	t.Helper()
	m := model{}
	for _, line := range strings.Split(strings.TrimSpace(chapterList), "\n") {
		u, l, err := readLine(line)
		if err != nil || m[u] != nil {
			t.Fatalf("%s: %v, %q before", line, err, m[u])
		}
		m[u] = l
	}
	for u := rune(0xFF01); u <= 0xFF5E; u++ {
		m[u] = []string{utf8.Set(u - 0xFEE0).Bytes}
	}
	if len(m) != listed+wide {
		t.Fatalf("%d scalars have candidates", len(m))
	}
	return m
}

// rising is the scalars of the model, from the least on.
func (m model) rising() []rune { return slices.Sorted(maps.Keys(m)) }

// first is what First answers by the document.
func (m model) first(u rune, among string) (string, bool) {
	there := scalarsOf(among)
	for _, candidate := range m[u] {
		if !slices.ContainsFunc([]rune(candidate), func(c rune) bool { return there[c] == 0 }) {
			return candidate, true
		}
	}
	return "", false
}

// scalarsOf is how often each scalar stands in a text: its units, read strictly, and U+FFFD for each byte of none.
func scalarsOf(text string) map[rune]int {
	there := map[rune]int{}
	for b := []byte(text); len(b) > 0; {
		g := utf8.Get(b)
		if g.Err != api.OK {
			g.N, g.A = 1, 0xFFFD
		}
		there[g.A]++
		b = b[g.N:]
	}
	return there
}

// union is the scalars of all candidates, from the least on, each once.
func union(candidates []string) []rune {
	l := []rune(strings.Join(candidates, ""))
	slices.Sort(l)
	return slices.Compact(l)
}

// subsets is all choices of some of a list's items.
func subsets(l []rune) [][]rune {
	var all [][]rune
	for n := range 1 << len(l) {
		var some []rune
		for i, u := range l {
			if n>>i&1 == 1 {
				some = append(some, u)
			}
		}
		all = append(all, some)
	}
	return all
}

// orders is all orders of a list's items.
func orders(l []rune) [][]rune {
	if len(l) < 2 {
		return [][]rune{l}
	}
	var all [][]rune
	for i, u := range l {
		for _, rest := range orders(slices.Delete(slices.Clone(l), i, i+1)) {
			all = append(all, append([]rune{u}, rest...))
		}
	}
	return all
}

// lacking is all ways to take one scalar of each candidate away from the scalars of all.
func lacking(candidates []string) [][]rune {
	all := [][]rune{union(candidates)}
	for _, candidate := range candidates {
		var next [][]rune
		for _, l := range all {
			for _, c := range union([]string{candidate}) {
				next = append(next, slices.DeleteFunc(slices.Clone(l), func(u rune) bool { return u == c }))
			}
		}
		all = next
	}
	return all
}

// others is scalars of one to four bytes that are in no candidate (of ASCII all but the controls are in some), part of which share bytes, or low bits, with those that are.
var others = []rune{0x00, 0x0A, 0x1F, 0x7F, 0x80, 0xA2, 0xAC, 0xC2, 0xEB, 0xFB, 0x0122, 0x0127, 0x0145, 0x02AB, 0x0441, 0x07FF, 0x0800, 0x20AB, 0x2022, 0x2122, 0x20AC, 0x3045, 0x4E45, 0xAB00, 0xE000, 0xFEFF, 0xFF02, 0xFF25, 0xFFFD, 0xFFFF, 0x10000, 0x10022, 0x10045, 0x1F600, 0x1F6AB, 0x100045, 0x10FFFF}

// noScalars are numbers that are no scalars, at both sides of what is one, and far away; some of them become one that has candidates, if some bits are lost.
func noScalars() []rune {
	l := []rune{
		math.MinInt32, math.MinInt32 + 1, -0x1000000, -0x110000, -0x10FFFF, -0x10000, -0xFFFF, -0x100, -0x80, -2, -1,
		0xD800, 0xD801, 0xD8A0, 0xDBFF, 0xDC00, 0xDCE4, 0xDFFE, 0xDFFF,
		0x110000, 0x110001, 0x1FFFFF, 0x200000, 0x1000000, math.MaxInt32 - 1, math.MaxInt32,
	}
	for _, u := range []rune{0xA0, 0xA3, 0xAB, 0xC4, 0xFF, 0x0192, 0x2019, 0x20AC, 0x3000, 0xFB02, 0xFF01, 0xFF21, 0xFF5E} {
		l = append(l, -u, ^u, math.MinInt32+u)
		for _, far := range []rune{0x110000, 0x200000, 0x400000, 0x1000000, 0x10000000, 0x40000000} {
			l = append(l, far+u, -far+u)
		}
	}
	return l
}

// nearby is all numbers from below 0 to above 10FFFF.
func nearby(yield func(u rune) bool) {
	for u := rune(-0x21000); u <= 0x130FFF; u++ {
		if !yield(u) {
			return
		}
	}
}

func checkCandidates(t *testing.T, u rune, want ...string) {
	if got := translit.Candidates(u); !slices.Equal(got, want) {
		t.Helper()
		t.Fatalf("Candidates(%X) = %q, want %q", u, got, want)
	}
}

func checkFirst(t *testing.T, u rune, among, want string, ok bool) {
	if got, gotOK := translit.First(u, among); got != want || gotOK != ok {
		t.Helper()
		t.Fatalf("First(%X, %.60q) = %q, %v, want %q, %v", u, among, got, gotOK, want, ok)
	}
}

// TestModel: the lines are read as they stand, and rise.
func TestModel(t *testing.T) {
	m := newModel(t)
	var lines []string
	for _, u := range m.rising()[:listed] {
		var parts []string
		for _, candidate := range m[u] {
			parts = append(parts, strings.Trim(fmt.Sprintf("%04X", []rune(candidate)), "[]"))
		}
		lines = append(lines, fmt.Sprintf("U+%04X: %s", u, strings.Join(parts, "; ")))
	}
	if got := strings.Join(lines, "\n"); got != strings.TrimSpace(chapterList) {
		t.Errorf("the list is read as\n%s", got)
	}
	for _, u := range others {
		for v, l := range m {
			if slices.Contains(union(l), u) {
				t.Errorf("%X is in a candidate of %X", u, v)
			}
		}
	}
}

// TestExamples: the chapter's, and the one of the whole.
func TestExamples(t *testing.T) {
	checkCandidates(t, 0x20AC, "EUR", "E")
	checkFirst(t, 0x20AC, "ER", "E", true)
	checkFirst(t, 0x20AC, "xyz", "", false)
	checkCandidates(t, 0xFF21, "A")
	checkCandidates(t, 'a')
	latin := ""
	for u := range rune(256) {
		latin += string(u)
	}
	checkFirst(t, 0x20AC, latin, "EUR", true)
}

// Promise 22.1: candidates, and all that have some.

// TestCandidatesByEye: some of every sort, written out.
func TestCandidatesByEye(t *testing.T) {
	for u, want := range map[rune][]string{
		0x00A0: {" "}, 0x00A3: {"GBP", "L"}, 0x00A8: {"\""}, 0x00A9: {"(C)", "C"}, 0x00AB: {"<<", "<", "\""}, 0x00B1: {"+/-", "+"}, 0x00B4: {"'"}, 0x00BB: {">>", ">", "\""}, 0x00BE: {"3/4"},
		0x00C4: {"Ae", "A"}, 0x00C5: {"Aa", "A"}, 0x00C6: {"AE"}, 0x00DE: {"Th"}, 0x00DF: {"ss"}, 0x00E4: {"ae", "a"}, 0x00E5: {"aa", "a"}, 0x00E6: {"ae"}, 0x00F7: {":"}, 0x00FF: {"y"},
		0x0110: {"D"}, 0x0131: {"i"}, 0x0142: {"l"}, 0x0152: {"OE"}, 0x0192: {"f"}, 0x2013: {"-"}, 0x2014: {"--", "-"}, 0x2015: {"--", "-"},
		0x2018: {"`", "'"}, 0x2019: {"\xC2\xB4", "'"}, 0x201C: {"\xC2\xAB", "\""}, 0x201D: {"\xC2\xBB", "\""}, 0x201E: {",,", "\""}, 0x2022: {"\xC2\xB7", "o", "*"}, 0x2026: {"...", "."}, 0x2030: {"o/oo"},
		0x20A9: {"W"}, 0x2122: {"TM", "T"}, 0x2260: {"/=", "!="}, 0x2264: {"<=", "<"}, 0x2265: {">=", ">"}, 0x3000: {"  ", " "}, 0xFB01: {"fi"}, 0xFB02: {"fl"},
		0xFF01: {"!"}, 0xFF02: {"\""}, 0xFF10: {"0"}, 0xFF3A: {"Z"}, 0xFF3C: {"\\"}, 0xFF41: {"a"}, 0xFF5D: {"}"}, 0xFF5E: {"~"},
	} {
		checkCandidates(t, u, want...)
	}
}

// TestCandidatesNone: scalars and other numbers in whose place nothing may stand.
func TestCandidatesNone(t *testing.T) {
	for u := rune(0); u < 0xA0; u++ {
		checkCandidates(t, u)
	}
	some := []rune{
		0x00A4, 0x00A7, 0x00AA, 0x00AC, 0x00AF, 0x00B0, 0x00B2, 0x00B3, 0x00B6, 0x00B9, 0x00BA, 0x0100, 0x0130, 0x0132, 0x0151, 0x0154, 0x0191, 0x0193,
		0x2012, 0x2016, 0x2017, 0x201B, 0x201F, 0x2021, 0x2023, 0x2025, 0x2027, 0x2031, 0x203B, 0x20A8, 0x20AB, 0x20AD, 0x2121, 0x2123, 0x2213, 0x2261, 0x2263, 0x2266, 0x2FFF, 0x3001,
		0xFB00, 0xFB03, 0xFEE0, 0xFEFF, 0xFF00, 0xFF5F, 0xFF60, 0xFF61, 0xFFE5, 0xFFFD, 0xFFFE, 0xFFFF, 0x100A0, 0x120AC, 0x1FF21, 0x1F600, 0x10FF21, 0x10FFFF,
	}
	for _, u := range append(some, noScalars()...) {
		checkCandidates(t, u)
	}
}

// TestCandidatesEvery: all numbers from below 0 to above 10FFFF.
func TestCandidatesEvery(t *testing.T) {
	m := newModel(t)
	n := 0
	for u := range nearby {
		checkCandidates(t, u, m[u]...)
		if len(m[u]) > 0 {
			n++
		}
	}
	if n != listed+wide {
		t.Errorf("%d numbers have candidates", n)
	}
}

// TestWide: each is FEE0 more than what may stand in its place.
func TestWide(t *testing.T) {
	for n := range 94 {
		checkCandidates(t, rune(0xFF01+n), string([]byte{byte(0x21 + n)}))
	}
}

// TestAll: all of them, rising, none twice, and no other.
func TestAll(t *testing.T) {
	all := translit.All()
	if want := newModel(t).rising(); !slices.Equal(all, want) {
		t.Errorf("All() = %X, want %X", all, want)
	}
	for i := 1; i < len(all); i++ {
		if all[i-1] >= all[i] {
			t.Errorf("%X is ahead of %X", all[i-1], all[i])
		}
	}
	var some []rune
	for u := range nearby {
		if len(translit.Candidates(u)) > 0 {
			some = append(some, u)
		}
	}
	if !slices.Equal(all, some) {
		t.Errorf("All() = %X, but %X have candidates", all, some)
	}
}

// spoil writes over a list, and over the spare room behind its end.
func spoil[T any](l []T, with T) {
	whole := l[:cap(l)]
	for i := range whole {
		whole[i] = with
	}
}

// TestNewMemory: what is answered is the caller's, with its spare room, and no two answers share any.
func TestNewMemory(t *testing.T) {
	m := newModel(t)
	for _, u := range m.rising() {
		a, b := translit.Candidates(u), translit.Candidates(u)
		spoil(a, "spoiled")
		if !slices.Equal(b, m[u]) {
			t.Fatalf("candidates of %X became %q", u, b)
		}
		checkCandidates(t, u, m[u]...)
		candidate, ok := m.first(u, strings.Join(m[u], ""))
		checkFirst(t, u, strings.Join(m[u], ""), candidate, ok)
	}
	a, b := translit.All(), translit.All()
	spoil(a, 'x')
	if !slices.Equal(b, m.rising()) || !slices.Equal(translit.All(), m.rising()) {
		t.Errorf("All() became %X, then %X", b, translit.All())
	}
	for _, u := range m.rising() {
		checkCandidates(t, u, m[u]...)
	}
}

// Promise 22.2: the first candidate.

// TestFirstByEye: earlier and later candidates, and none, written out.
func TestFirstByEye(t *testing.T) {
	for _, c := range []struct {
		u           rune
		among, want string
	}{
		{0x20AC, "EUR", "EUR"}, {0x20AC, "RUE", "EUR"}, {0x20AC, "xRyUzE", "EUR"}, {0x20AC, "EEE", "E"}, {0x20AC, "E", "E"}, {0x20AC, "EU", "E"}, {0x20AC, "UR", ""}, {0x20AC, "eur", ""},
		{0x2014, "-", "--"}, {0x2014, "--", "--"}, {0x2014, "+", ""}, {0x2026, ".", "..."}, {0x3000, " ", "  "}, {0x3000, "\u3000", ""}, {0x2030, "/o", "o/oo"}, {0x2030, "o", ""}, {0x2030, "/", ""},
		{0x00AB, "<", "<<"}, {0x00AB, "\"", "\""}, {0x00AB, "\"<", "<<"}, {0x00AB, ">", ""}, {0x00C4, "A", "A"}, {0x00C4, "eA", "Ae"}, {0x00C4, "e", ""}, {0x00C6, "A", ""}, {0x00C6, "EA", "AE"},
		{0x00A9, "C)", "C"}, {0x00A9, ")C(", "(C)"}, {0x00A9, "()", ""}, {0x2260, "=", ""}, {0x2260, "=!", "!="}, {0x2260, "=/", "/="}, {0x2260, "=!/", "/="}, {0x2260, "!/", ""},
		{0x2019, "'", "'"}, {0x2019, "\u00B4", "\u00B4"}, {0x2019, "'\u00B4", "\u00B4"}, {0x201C, "\"\u00AB", "\u00AB"}, {0x201C, "\"\u00BB", "\""}, {0x201D, "\u00BB", "\u00BB"}, {0x201D, "\u00AB", ""},
		{0x2022, "*", "*"}, {0x2022, "*o", "o"}, {0x2022, "*o\u00B7", "\u00B7"}, {0x2022, "*\u00B7", "\u00B7"}, {0x2022, "\u2022", ""}, {0xFF21, "A", "A"}, {0xFF21, "BA", "A"}, {0xFF21, "a\uFF21", ""},
		{0x00B4, "'", "'"}, {0x00B4, "\u00B4", ""}, {0x2018, "'", "'"}, {0x2018, "'`", "`"}, {0xFB01, "if", "fi"}, {0xFB01, "f\uFB01", ""},
	} {
		checkFirst(t, c.u, c.among, c.want, c.want != "")
	}
}

// TestFirstEmpty: where there are no scalars, no candidate stands.
func TestFirstEmpty(t *testing.T) {
	for u := range nearby {
		checkFirst(t, u, "", "", false)
	}
}

// TestFirstAlone: each candidate alone; it stands there, and an earlier one only if it is of the same scalars.
func TestFirstAlone(t *testing.T) {
	m := newModel(t)
	for _, u := range m.rising() {
		for i, candidate := range m[u] {
			want := candidate
			for _, earlier := range slices.Backward(m[u][:i]) {
				if strings.Trim(earlier, candidate) == "" {
					want = earlier
				}
			}
			checkFirst(t, u, candidate, want, true)
		}
	}
}

// TestFirstLater: of each earlier candidate one scalar is missing, which the later one has not, and nothing else.
func TestFirstLater(t *testing.T) {
	m := newModel(t)
	reached := map[string]int{}
	for _, u := range m.rising() {
		for i, candidate := range m[u] {
			for _, l := range lacking(m[u][:i]) {
				if i == 0 || !isWithout(m[u][:i], candidate, l) {
					continue
				}
				reached[string(u)+candidate]++
				checkFirst(t, u, string(l)+candidate, candidate, true)
				checkFirst(t, u, candidate+string(l), candidate, true)
				checkFirst(t, u, string(others)+candidate+string(l), candidate, true)
			}
		}
	}
	// There are 33 later candidates; of U+00AB, U+00BB, U+00E5, U+2014, U+2015, U+2026 and U+3000 one is of the first one's scalars.
	if len(reached) != 26 {
		t.Errorf("%d later candidates are reached", len(reached))
	}
}

// isWithout is whether none of the earlier candidates is whole where a later one stands beside some scalars.
func isWithout(earlier []string, candidate string, beside []rune) bool {
	there := append([]rune(candidate), beside...)
	return !slices.ContainsFunc(earlier, func(s string) bool {
		return !slices.ContainsFunc([]rune(s), func(c rune) bool { return !slices.Contains(there, c) })
	})
}

// TestFirstWhole: where all scalars of all candidates stand, it is the first one, whatever else stands there.
func TestFirstWhole(t *testing.T) {
	m := newModel(t)
	for _, u := range m.rising() {
		all := string(union(m[u]))
		for _, among := range []string{all, all + all, strings.Join(m[u], ""), string(others) + all, all + string(others), "\xFF" + all + "\xC2", string(u) + all} {
			checkFirst(t, u, among, m[u][0], true)
		}
	}
}

// TestFirstLacking: where one scalar of each candidate is missing there is none, whatever else stands there.
func TestFirstLacking(t *testing.T) {
	m := newModel(t)
	for _, u := range m.rising() {
		for _, l := range lacking(m[u]) {
			checkFirst(t, u, string(l), "", false)
			checkFirst(t, u, string(l)+string(l), "", false)
			checkFirst(t, u, string(others)+string(l)+string(others), "", false)
			checkFirst(t, u, string(u)+string(l), "", false)
		}
	}
}

// TestFirstChoices: all choices of the candidates' scalars, in all orders, each once, twice, and with others between them.
func TestFirstChoices(t *testing.T) {
	m := newModel(t)
	for _, u := range m.rising() {
		for _, some := range subsets(union(m[u])) {
			want, ok := m.first(u, string(some))
			for i, l := range orders(some) {
				checkFirst(t, u, string(l), want, ok)
				checkFirst(t, u, string(l)+string(l), want, ok)
				among := string(others[i%len(others)])
				for j, c := range l {
					among += string(c) + string(others[(i+j)%len(others)]) + string(c)
				}
				checkFirst(t, u, among, want, ok)
			}
		}
	}
}

// TestFirstEachScalar: each scalar alone; those that are in no candidate do not matter.
func TestFirstEachScalar(t *testing.T) {
	m := newModel(t)
	for c := rune(0); c <= 0x10FFFF; c++ {
		if !stdutf8.ValidRune(c) {
			continue
		}
		for _, u := range []rune{0x00DF, 0x2019, 0x201C, 0x2022, 0x20AC, 0xFF21} {
			want := ""
			for _, candidate := range slices.Backward(m[u]) {
				if strings.Trim(candidate, string(c)) == "" {
					want = candidate
				}
			}
			checkFirst(t, u, string(c), want, want != "")
		}
	}
}

// TestFirstOwn: its own scalar does not help.
func TestFirstOwn(t *testing.T) {
	for _, u := range translit.All() {
		checkFirst(t, u, string(u), "", false)
	}
}

// everyScalar is a text of all scalars, from the last to the first.
func everyScalar() string {
	var b []byte
	for u := rune(0x10FFFF); u >= 0; u-- {
		if stdutf8.ValidRune(u) {
			b = stdutf8.AppendRune(b, u)
		}
	}
	return string(b)
}

// TestFirstNone: numbers that have no candidates, with any text, and those that have some, with the same texts.
func TestFirstNone(t *testing.T) {
	m := newModel(t)
	full := everyScalar()
	for u := range nearby {
		if m[u] == nil {
			for _, among := range []string{"", "a", string(u), full, "\xFF", "\xC2\xAB\xC2"} {
				checkFirst(t, u, among, "", false)
			}
		}
	}
	for _, u := range noScalars() {
		for _, among := range []string{"", string(u), "\uFFFD", full} {
			checkFirst(t, u, among, "", false)
		}
	}
	for _, u := range m.rising() {
		checkFirst(t, u, full, m[u][0], true)
	}
}

// TestFirstLong: texts that are longer than any limit, with what matters at either end or nowhere.
func TestFirstLong(t *testing.T) {
	long := strings.Repeat("\u20AC\xFFx", api.MaxIn)
	checkFirst(t, 0x20AC, long, "", false)
	checkFirst(t, 0x20AC, long+"E", "E", true)
	checkFirst(t, 0x20AC, "R"+long+"EU", "EUR", true)
	checkFirst(t, 0x201C, long+"\xC2", "", false)
	checkFirst(t, 0x201C, long+"\xC2\xAB", "\u00AB", true)
	checkFirst(t, 'x', long, "", false)
}

// TestFirstBroken: bytes that are no scalars make none stand there, not even a candidate's own.
func TestFirstBroken(t *testing.T) {
	for _, among := range []string{
		"\xC2", "\xAB", "\xAB\xC2", "\xC2\xC2", "\xAB\xAB", "\xC2A\xAB", "\xC2\xFF\xAB", "\xC2\x00\xAB", "\xC2\uFFFD\xAB", "\xC2\u00A2\xAB", "\u00A2\u00EB", "\u00C2\u00EB", "\u20AB", "\u02AB\u00C2", // parts of U+00AB
		"\xE0\x82\xAB", "\xF0\x80\x82\xAB", "\xC0\xA2", "\xE0\x80\xA2", "\xF0\x80\x80\xA2", // more bytes than the shortest, of U+00AB and of a quotation mark
		"\xE2\xC2", "\xE2\x82\xC2", "\xC2\xE2\xAB", "\xED\xA0\xAB", "\xED\xA2\xAB", "\xF4\x90\xC2", "\xF5\x80\x80\x80", "\xFE", "\xFF", "\x80", "\uFFFD",
	} {
		checkFirst(t, 0x201C, among, "", false)
		checkFirst(t, 0x201C, among+"\"", "\"", true)
		checkFirst(t, 0x201C, "\""+among, "\"", true)
		checkFirst(t, 0x201C, "\u00AB"+among, "\u00AB", true)
		checkFirst(t, 0x201C, "\""+among+"\u00AB", "\u00AB", true)
	}
	// A whole unit stands there, whatever is broken beside it.
	for _, among := range []string{"\xC2\xC2\xAB", "\xC2\xAB\xAB", "\xE2\xC2\xAB", "\xE2\x82\xC2\xAB", "\xF0\x9F\x98\xC2\xAB\xC2", "\xFF\xC2\xAB\xFF", "\xC0\xC2\xAB"} {
		checkFirst(t, 0x201C, among, "\u00AB", true)
	}
	// Bytes whose bits are a letter's, in more bytes than the shortest.
	for _, among := range []string{"\xC1\x85", "\xE0\x81\x85", "\xF0\x80\x81\x85", "\xC5", "\x85", "\xC1\x85\xC1\x95\xC1\x92"} {
		checkFirst(t, 0x20AC, among, "", false)
	}
}

// TestFirstBytes: all texts of up to two bytes, and all of three of bytes that matter.
func TestFirstBytes(t *testing.T) {
	m := newModel(t)
	some := []rune{0x2019, 0x201C, 0x2022, 0x20AC}
	check := func(among string) {
		for _, u := range some {
			want, ok := m.first(u, among)
			checkFirst(t, u, among, want, ok)
		}
	}
	for a := range 256 {
		check(string([]byte{byte(a)}))
		for b := range 256 {
			check(string([]byte{byte(a), byte(b)}))
		}
	}
	matter := []byte("\x00\"'*EURo~\x7F\x80\x82\xA0\xAB\xB4\xB7\xBB\xBF\xC0\xC1\xC2\xC3\xDF\xE0\xE2\xED\xEF\xF0\xF4\xF5\xFF")
	for _, a := range matter {
		for _, b := range matter {
			for _, c := range matter {
				check(string([]byte{a, b, c}))
			}
		}
	}
}

// TestFirstNever: no bytes of any sort that are no scalars make a candidate stand.
func TestFirstNever(t *testing.T) {
	for _, u := range translit.All() {
		for n := 0x80; n < 256; n++ {
			checkFirst(t, u, string([]byte{byte(n)}), "", false)
			checkFirst(t, u, string([]byte{byte(n), byte(n)}), "", false)
		}
		checkFirst(t, u, "\uFFFD", "", false)
	}
}

// TestFirstAny: any bytes.
func TestFirstAny(t *testing.T) {
	m := newModel(t)
	r := rand.New(rand.NewPCG(22, 2))
	all := m.rising()
	for range 200000 {
		u := all[r.IntN(len(all))]
		pieces := strings.Split(strings.Join(m[u], ""), "")
		among := ""
		for range r.IntN(8) {
			switch r.IntN(4) {
			case 0:
				among += string(others[r.IntN(len(others))])
			case 1:
				among += string([]byte{byte(r.Uint32())})
			default:
				among += pieces[r.IntN(len(pieces))]
			}
		}
		want, ok := m.first(u, among)
		checkFirst(t, u, among, want, ok)
	}
}

// Promise 22.3: what follows.

// TestFollows: of all numbers, what candidates never are.
func TestFollows(t *testing.T) {
	most := 0
	for u := range nearby {
		l := translit.Candidates(u)
		for i, candidate := range l {
			n := stdutf8.RuneCountInString(candidate)
			most = max(most, n)
			if n == 0 || n > 4 || !stdutf8.ValidString(candidate) {
				t.Errorf("%X has a candidate %q", u, candidate)
			}
			if strings.ContainsRune(candidate, u) || slices.Contains(l[:i], candidate) {
				t.Errorf("%X has the candidates %q", u, l)
			}
		}
	}
	if most != 4 {
		t.Errorf("the longest candidate has %d scalars", most)
	}
}
