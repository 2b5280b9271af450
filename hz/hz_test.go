package hz_test

import (
	"bytes"
	"fmt"
	"maps"
	"math"
	"math/rand/v2"
	"slices"
	"strings"
	"testing"

	"dragoman/api"
	"dragoman/gb"
	"dragoman/hz"
)

// The two states of HZ.
var (
	outside = api.State{}
	within  = api.State{Mode: 1}
	states  = []api.State{outside, within}
)

// places is how many cells of the rows stand for something, row by row as one counts them in chapter 15.
const places = 94 + 72 + 94 + 83 + 86 + 48 + 66 + 63 + 76 + 94

// model is the encoding by the document, apart from the program: what whole units come to in each state, and what scalars are written as.
type model struct {
	units  map[api.State]map[string]api.Got // units of one and of two bytes
	alone  map[rune]string                  // what is written outside
	paired map[rune]string                  // what is written within
}

func newModel(t *testing.T) model {
	t.Helper()
	m := model{map[api.State]map[string]api.Got{outside: {}, within: {}}, map[rune]string{}, map[rune]string{}}
	for n := range 0x80 {
		if n != '~' {
			unit := string([]byte{byte(n)})
			m.units[outside][unit] = api.Got{N: 1, K: 1, A: rune(n)}
			m.alone[rune(n)] = unit
		}
	}
	m.alone['~'] = "~~"
	m.units[outside]["~~"] = api.Got{N: 2, K: 1, A: '~'}
	m.units[outside]["~{"] = api.Got{N: 2, S: within}
	m.units[outside]["~\n"] = api.Got{N: 2}
	m.units[within]["~}"] = api.Got{N: 2}
	m.units[within]["\n"] = api.Got{N: 1, K: 1, A: '\n'}
	// The lists are held against the document where they stand.
	for row := 1; row <= 87; row++ {
		for i, u := range gb.Row(row) {
			if u != 0xFFFD {
				m.addPlace(u, string([]byte{byte(0x20 + row), byte(0x21 + i)}))
			}
		}
	}
	if len(m.units[outside]) != 127+3 || len(m.units[within]) != places+2 || len(m.alone) != 128 {
		t.Fatalf("%d units outside, %d within, %d scalars alone", len(m.units[outside]), len(m.units[within]), len(m.alone))
	}
	return m
}

func (m model) addPlace(u rune, unit string) {
	m.units[within][unit] = api.Got{N: 2, K: 1, A: u, S: within}
	if _, ok := m.paired[u]; !ok {
		m.paired[u] = unit
	}
}

// isLead and isTrail are said by rows and cells: 87 of the ones and 94 of the others.
func isLead(b byte) bool  { return b > 0x20 && b <= 0x20+87 }
func isTrail(b byte) bool { return b > 0x20 && b <= 0x20+94 }

// wantGet is what Get answers by the document, of a state that is right.
func (m model) wantGet(s api.State, b []byte) api.Got {
	for n := 1; n <= 2 && n <= len(b); n++ {
		if g, ok := m.units[s][string(b[:n])]; ok {
			return g
		}
	}
	ofTwo := len(b) > 0 && (b[0] == '~' || s == within && isLead(b[0]))
	switch {
	case len(b) == 0, len(b) == 1 && ofTwo:
		return api.Got{Err: api.More}
	case ofTwo && b[0] != '~' && isTrail(b[1]):
		return api.Got{Err: api.Illegal, N: 2, S: s}
	}
	return api.Got{Err: api.Illegal, N: 1, S: s}
}

// wantSet is what Set answers by the document, of a state that is right.
func (m model) wantSet(s api.State, u rune) api.Put {
	if unit, ok := m.alone[u]; ok {
		return api.Put{Bytes: map[api.State]string{outside: "", within: "~}"}[s] + unit, S: outside}
	}
	if unit, ok := m.paired[u]; ok {
		return api.Put{Bytes: map[api.State]string{outside: "~{", within: ""}[s] + unit, S: within}
	}
	return api.Put{Err: api.None}
}

// scalars are all that have a place, rising.
func (m model) scalars() []rune {
	return append(slices.Sorted(maps.Keys(m.alone)), slices.Sorted(maps.Keys(m.paired))...)
}

func checkGet(t *testing.T, s api.State, b []byte, want api.Got) {
	if got := hz.Get(s, b); got != want {
		t.Helper()
		t.Fatalf("Get(%+v, % .40X) = %+v, want %+v", s, b, got, want)
	}
}

// told is what was put out, in words.
func told(p api.Put) string { return fmt.Sprintf("{%d, %q, %+v}", int(p.Err), p.Bytes, p.S) }

func checkSet(t *testing.T, s api.State, u rune, want api.Put) {
	if got := hz.Set(s, u); got != want {
		t.Helper()
		t.Fatalf("Set(%+v, %X) = %s, want %s", s, u, told(got), told(want))
	}
}

func checkEnd(t *testing.T, s api.State, want string, wantErr api.Errno) {
	if got, err := hz.End(s); got != want || err != wantErr {
		t.Helper()
		t.Fatalf("End(%+v) = %q, %d, want %q, %d", s, got, int(err), want, int(wantErr))
	}
}

// writeAll is what Set and End write for scalars, from the zero State on.
func writeAll(t *testing.T, l []rune) string {
	t.Helper()
	var s api.State
	var out strings.Builder
	for i, u := range l {
		p := hz.Set(s, u)
		if p.Err != api.OK {
			t.Fatalf("the scalar at %d of %X: Set(%+v, %X) = %s", i, l, s, u, told(p))
		}
		out.WriteString(p.Bytes)
		s = p.S
	}
	last, err := hz.End(s)
	if err != api.OK {
		t.Fatalf("%X: End(%+v) = %q, %d", l, s, last, int(err))
	}
	return out.String() + last
}

// readAll is what Get reads, from the zero State on, up to the first error; and the state behind it.
func readAll(text string) ([]rune, api.State, api.Errno) {
	var s api.State
	var l []rune
	for b := []byte(text); len(b) > 0; {
		g := hz.Get(s, b)
		if g.Err != api.OK {
			return l, s, g.Err
		}
		if g.K == 1 {
			l = append(l, g.A)
		}
		s = g.S
		b = b[g.N:]
	}
	return l, s, api.OK
}

// checkThereAndBack is promise 20.3 of some scalars; it tells what was written.
func checkThereAndBack(t *testing.T, l []rune) string {
	t.Helper()
	text := writeAll(t, l)
	if i := strings.IndexFunc(text, func(r rune) bool { return r >= 0x80 }); i >= 0 {
		t.Fatalf("%X are written as %q: more than seven bits at %d", l, text, i)
	}
	got, s, err := readAll(text)
	if !slices.Equal(got, l) || s != outside || err != api.OK {
		t.Fatalf("%X are written as %q, and read as %X, %+v, %d", l, text, got, s, int(err))
	}
	return text
}

// tails are what may follow: nothing, bytes of every sort, whole units and beginnings of them.
var tails = []string{"", "\x00", "\n", " ", "!", "$\"", "A", "w", "x", "{", "}", "~", "~~", "~{", "~}", "~\n", "~{$\"~}", "\x7F", "\x80", "\xFF\xFF\xFF\xFF\xFF\xFF\xFF\xFF"}

// noScalars are numbers that are no scalars, at both sides of what is one, and far away.
var noScalars = []rune{
	math.MinInt32, math.MinInt32 + 1, math.MinInt32 + '\n', math.MinInt32 + 'A', math.MinInt32 + '~', math.MinInt32 + 0x3042, math.MinInt32 + 0xFFFD, -0x1000000 + 'A', -0x1000000 + 0x3042, -0x110000, -0x10FFFF, -0x10000, -0xFFFD,
	-0x3042, -0x101, -0x100, -0xFF, -0x100 + '~', -0x100 + 'A', -0x81, -0x80, -0x7F, -'~', -'A', -'\n', -2, -1,
	0xD800, 0xD801, 0xD841, 0xDBFF, 0xDC00, 0xDC41, 0xDC7E, 0xDFFE, 0xDFFF,
	0x110000, 0x110001, 0x110000 + 'A', 0x110000 + '~', 0x113042, 0x11FFFD, 0x200000 + 'A', 0x1000000 + 'A', 0x1003042, 0x40000000 + 'A', 0x40003042, math.MaxInt32 - 0x7F, math.MaxInt32 - 1, math.MaxInt32,
}

// otherStates are none of HZ: other modes, near and far, such as become one of the two if some bits are lost, and each other field that is not zero, alone, beside either mode and beside others.
func otherStates() []api.State {
	var l []api.State
	for mode := -300; mode <= 600; mode++ {
		if mode != 0 && mode != 1 {
			l = append(l, api.State{Mode: mode})
		}
	}
	for _, far := range []int{1 << 8, 1 << 16, 1 << 31, 1 << 32, 1 << 40, 1 << 62, math.MinInt} {
		l = append(l, api.State{Mode: far}, api.State{Mode: far + 1}, api.State{Mode: -far - 1})
	}
	l = append(l, api.State{Mode: math.MaxInt}, api.State{Mode: math.MaxInt - 1})
	for _, mode := range []int{0, 1, 2, -1} {
		for _, n := range []int{math.MinInt, math.MinInt32, -256, -2, -1, 1, 2, 6, 8, 16, 255, 256, 65536, 1 << 32, math.MaxInt} {
			l = append(l, api.State{Mode: mode, Bits: n})
		}
		for _, n := range []uint32{1, 2, 255, 256, 65536, 1 << 31, math.MaxUint32} {
			l = append(l, api.State{Mode: mode, Acc: n})
		}
		for _, n := range []rune{math.MinInt32, -1, 1, 'A', '~', 0x80, 256, 0x3042, 0xD800, 0xFFFD, 65536, 0x10FFFF, math.MaxInt32} {
			l = append(l, api.State{Mode: mode, Held: n})
		}
		l = append(l, api.State{Mode: mode, Bits: 1, Acc: 1}, api.State{Mode: mode, Acc: 1, Held: 'A'}, api.State{Mode: mode, Bits: -1, Acc: 1}, api.State{Mode: mode, Bits: -1, Held: 1}, api.State{Mode: mode, Bits: 8, Acc: 255, Held: 0x3042})
	}
	return l
}

// TestExamples: the chapter's.
func TestExamples(t *testing.T) {
	if got := writeAll(t, []rune{'A', 0x3042}); got != "A~{$\"~}" {
		t.Errorf("%q", got)
	}
	if got := writeAll(t, []rune{'~'}); got != "~~" {
		t.Errorf("%q", got)
	}
	checkGet(t, outside, []byte("~A"), api.Got{Err: api.Illegal, N: 1})
	checkGet(t, within, []byte("~A"), api.Got{Err: api.Illegal, N: 1, S: within})
	checkGet(t, outside, []byte("~\n"), api.Got{N: 2})
}

// The states: any other than the two is none of HZ.

// TestGetOtherStates: ErrState and nothing else, of no bytes too, and of such as are right, short or wrong.
func TestGetOtherStates(t *testing.T) {
	all := [][]byte{nil, {}, bytes.Repeat([]byte{'$'}, 100)}
	for n := range 256 {
		all = append(all, []byte{byte(n)}, []byte{byte(n), '!'}, []byte{'~', byte(n)}, []byte{'$', byte(n), 'A'})
	}
	for _, s := range otherStates() {
		for _, b := range all {
			checkGet(t, s, b, api.Got{Err: api.ErrState})
		}
	}
}

// TestSetOtherStates: ErrState and nothing else, also of what has no place.
func TestSetOtherStates(t *testing.T) {
	some := append([]rune{0, 1, '\n', 'A', '{', '}', '~', 0x7F, 0x80, 0xA4, 0xFF, 0x3042, 0x4E00, 0x554A, 0xFFFD, 0x10000, 0x10FFFF}, noScalars...)
	for _, s := range otherStates() {
		for _, u := range some {
			checkSet(t, s, u, api.Put{Err: api.ErrState})
		}
	}
}

// TestEndOtherStates: ErrState and no bytes.
func TestEndOtherStates(t *testing.T) {
	for _, s := range otherStates() {
		checkEnd(t, s, "", api.ErrState)
	}
}

// Promise 20.1: what is got.

// TestGetNothing: of no bytes there are more to come, in both states; nothing else is told.
func TestGetNothing(t *testing.T) {
	for _, s := range states {
		checkGet(t, s, nil, api.Got{Err: api.More})
		checkGet(t, s, []byte{}, api.Got{Err: api.More})
		// What lies behind a list's end is none of it.
		checkGet(t, s, []byte("A~{")[:0], api.Got{Err: api.More})
		checkGet(t, s, []byte("$\"")[:0], api.Got{Err: api.More})
	}
}

// TestGetAlone: every byte alone in both states, with the answers written out.
func TestGetAlone(t *testing.T) {
	for n := range 256 {
		out, in := api.Got{N: 1, K: 1, A: rune(n)}, api.Got{Err: api.Illegal, N: 1, S: within}
		switch {
		case n == 0x7E:
			out, in = api.Got{Err: api.More}, api.Got{Err: api.More}
		case n == 0x0A:
			in = api.Got{N: 1, K: 1, A: 0x0A}
		case n >= 0x21 && n <= 0x77:
			in = api.Got{Err: api.More}
		case n >= 0x80:
			out = api.Got{Err: api.Illegal, N: 1}
		}
		for _, behind := range []string{"", "!!", "~~", "{}", "}}", "\n\n"} {
			// What lies behind a list's end is none of it.
			b := append([]byte{byte(n)}, behind...)[:1]
			checkGet(t, outside, b, out)
			checkGet(t, within, b, in)
		}
	}
}

// TestGetPairs: in both states every first byte with every second byte, and whatever follows.
func TestGetPairs(t *testing.T) {
	m := newModel(t)
	for _, s := range states {
		for n := range 1 << 16 {
			for _, tail := range tails {
				b := append([]byte{byte(n >> 8), byte(n)}, tail...)
				checkGet(t, s, b, m.wantGet(s, b))
			}
		}
	}
}

// TestGetCounts: how many of all pairs come to what, as one reckons it from the chapter.
func TestGetCounts(t *testing.T) {
	type sort struct {
		err  api.Errno
		n, k int
		s    api.State
	}
	for s, want := range map[api.State]map[sort]int{
		outside: {
			{api.OK, 1, 1, outside}:      127 * 256,
			{api.OK, 2, 1, outside}:      1, // ~~
			{api.OK, 2, 0, within}:       1, // ~{
			{api.OK, 2, 0, outside}:      1, // ~ and a line feed
			{api.Illegal, 1, 0, outside}: 128*256 + 253,
		},
		within: {
			{api.OK, 1, 1, outside}:     256, // a line feed
			{api.OK, 2, 0, outside}:     1,   // ~}
			{api.OK, 2, 1, within}:      places,
			{api.Illegal, 2, 0, within}: 87*94 - places,
			{api.Illegal, 1, 0, within}: 87*(256-94) + (256-87-2)*256 + 255,
		},
	} {
		got := map[sort]int{}
		for n := range 1 << 16 {
			g := hz.Get(s, []byte{byte(n >> 8), byte(n)})
			got[sort{g.Err, g.N, g.K, g.S}]++
		}
		if !maps.Equal(got, want) {
			t.Errorf("%+v: %v, want %v", s, got, want)
		}
	}
}

// TestGetEscapes: what is behind a ~ , in both states, with the answers written out and whatever follows.
func TestGetEscapes(t *testing.T) {
	for n := range 256 {
		out, in := api.Got{Err: api.Illegal, N: 1}, api.Got{Err: api.Illegal, N: 1, S: within}
		switch n {
		case 0x7E:
			out = api.Got{N: 2, K: 1, A: 0x7E}
		case 0x7B:
			out = api.Got{N: 2, S: within}
		case 0x0A:
			out = api.Got{N: 2}
		case 0x7D:
			in = api.Got{N: 2}
		}
		for _, tail := range tails {
			b := append([]byte{0x7E, byte(n)}, tail...)
			checkGet(t, outside, b, out)
			checkGet(t, within, b, in)
		}
	}
}

// TestGetOutside: bytes that stand for themselves outside, also those that mean something within or behind a ~ ; whatever follows.
func TestGetOutside(t *testing.T) {
	for _, c := range []byte("\x00\x01\t\n\r\x1B !\"$09@AZwxyz[{|}\x7F") {
		for _, tail := range tails {
			checkGet(t, outside, append([]byte{c}, tail...), api.Got{N: 1, K: 1, A: rune(c)})
		}
	}
	for _, c := range []byte{0x80, 0x81, 0xA1, 0xFE, 0xFF, 0xA4} {
		for _, tail := range tails {
			checkGet(t, outside, append([]byte{c}, tail...), api.Got{Err: api.Illegal, N: 1})
		}
	}
}

// TestGetWithin: units within a stretch as one finds them in chapter 15 by eye, at the ends of rows too, whatever follows; and that outside they are two bytes.
func TestGetWithin(t *testing.T) {
	for unit, u := range map[string]rune{
		"!!": 0x3000, "!$": 0x30FB, "!*": 0x2015, "!{": 0x2190, "!}": 0x2193, "!~": 0x3013, "\"1": 0x2488, "\"|": 0x216B, "#!": 0xFF01, "#$": 0xFFE5, "#A": 0xFF21, "#~": 0xFFE3,
		"$!": 0x3041, "$\"": 0x3042, "$s": 0x3093, "%!": 0x30A1, "%v": 0x30F6, "&!": 0x0391, "&X": 0x03C9, "'!": 0x0410, "''": 0x0401, "'q": 0x044F,
		"(!": 0x0101, "(i": 0x3129, ")$": 0x2500, ")o": 0x254B, "0!": 0x554A, "0\"": 0x963F, "0~": 0x5265,
	} {
		for _, tail := range tails {
			checkGet(t, within, []byte(unit+tail), api.Got{N: 2, K: 1, A: u, S: within})
			checkGet(t, outside, []byte(unit+tail), api.Got{N: 1, K: 1, A: rune(unit[0])})
		}
		checkGet(t, within, []byte(unit[:1]), api.Got{Err: api.More})
		checkSet(t, within, u, api.Put{Bytes: unit, S: within})
		checkSet(t, outside, u, api.Put{Bytes: "~{" + unit, S: within})
	}
}

// TestGetWrongWithin: the edges of what is illegal within a stretch, and how much of it is passed over.
func TestGetWrongWithin(t *testing.T) {
	one, two := api.Got{Err: api.Illegal, N: 1, S: within}, api.Got{Err: api.Illegal, N: 2, S: within}
	for _, c := range []byte{0x00, 0x01, 0x09, 0x0B, 0x0D, 0x1F, 0x20, 0x78, 0x79, 0x7A, 0x7B, 0x7C, 0x7D, 0x7F, 0x80, 0x81, 0xA1, 0xA4, 0xF7, 0xFE, 0xFF} {
		checkGet(t, within, []byte{c}, one)
		for n := range 256 {
			checkGet(t, within, []byte{c, byte(n)}, one)
			checkGet(t, within, []byte{c, byte(n), '!'}, one)
		}
	}
	// Second bytes that are none, a line feed among them, behind every first byte.
	for _, c := range []byte{0x00, 0x0A, 0x0D, 0x1F, 0x20, 0x7F, 0x80, 0xA1, 0xA2, 0xFE, 0xFF} {
		for lead := byte(0x21); lead <= 0x77; lead++ {
			checkGet(t, within, []byte{lead, c}, one)
			checkGet(t, within, []byte{lead, c, '!'}, one)
		}
	}
	// Cells that stand for nothing, and rows that are not listed, up to the last.
	for _, pair := range []string{"\"!", "\"0", "$t", "$~", "$}", "%w", "%~", "&9", ")!", ")#", ")~", "*!", "*~", "/!", "/~", "1!", "1~", "v!", "w!", "w}", "w~"} {
		for _, tail := range tails {
			checkGet(t, within, []byte(pair+tail), two)
		}
	}
}

// TestGetLines: a line feed ends a stretch and is read; behind a ~ it is not read, outside, and is illegal within.
func TestGetLines(t *testing.T) {
	for text, want := range map[string][]rune{
		"~{$\"\nA":         {0x3042, '\n', 'A'},
		"~{\n$\"":          {'\n', '$', '"'},
		"~{$\"\n~{$\"~}\n": {0x3042, '\n', 0x3042, '\n'},
		"A~\nB":            {'A', 'B'},
		"A\n~\n\nB":        {'A', '\n', '\n', 'B'},
		"~{~}~~~{$\"~}~~":  {'~', 0x3042, '~'},
		"~{!~~}!~~":        {0x3013, '!', '~'},
		"{}~~{}":           {'{', '}', '~', '{', '}'},
	} {
		got, s, err := readAll(text)
		if !slices.Equal(got, want) || s != outside || err != api.OK {
			t.Errorf("%q is read as %X, %+v, %d, want %X", text, got, s, int(err), want)
		}
	}
	for text, want := range map[string]api.Errno{"~{~\n": api.Illegal, "~{~{": api.Illegal, "~{~~": api.Illegal, "~}": api.Illegal, "~{~}~}": api.Illegal, "~{$\n": api.Illegal, "~": api.More, "~{~": api.More, "~{$": api.More, "~{$\"~}~": api.More} {
		if _, _, err := readAll(text); err != want {
			t.Errorf("%q: %d, want %d", text, int(err), int(want))
		}
	}
}

// TestLong is rule R6: bytes beyond every limit are read from the front alike.
func TestLong(t *testing.T) {
	b := []byte(strings.Repeat("$\"", 1+api.MaxIn/2))
	checkGet(t, outside, b, api.Got{N: 1, K: 1, A: '$'})
	checkGet(t, within, b, api.Got{N: 2, K: 1, A: 0x3042, S: within})
	b[0] = '~'
	checkGet(t, outside, b, api.Got{Err: api.Illegal, N: 1})
	checkGet(t, within, b, api.Got{Err: api.Illegal, N: 1, S: within})
	b[1] = '{'
	checkGet(t, outside, b, api.Got{N: 2, S: within})
	b[1] = '}'
	checkGet(t, within, b, api.Got{N: 2})
}

// TestMemory is rule R4: what is handed in stays, also in the room behind a list's end.
func TestMemory(t *testing.T) {
	whole := []byte("A~~~{$\"w~~A$\n~}\n~\n\x80~{\n\xFF0!~")
	kept := bytes.Clone(whole)
	for _, s := range states {
		for n := range len(whole) + 1 {
			for from := range n + 1 {
				hz.Get(s, whole[from:n])
			}
		}
	}
	if !bytes.Equal(whole, kept) {
		t.Errorf("% X are % X afterwards", kept, whole)
	}
}

// Promise 20.2: what is set.

// TestSetEvery: in both states every scalar, and the numbers around them.
func TestSetEvery(t *testing.T) {
	m := newModel(t)
	for _, s := range states {
		for u := rune(-0x11000); u < 0x121000; u++ {
			checkSet(t, s, u, m.wantSet(s, u))
		}
		for bit := range 32 {
			for d := range uint32(5) {
				u := rune(uint32(1)<<bit + d - 2)
				checkSet(t, s, u, m.wantSet(s, u))
			}
		}
		// Numbers that a scalar could be taken for, if some of their bits were lost.
		for _, u := range m.scalars() {
			for _, v := range []rune{-u, ^u, u - 0x100, u + 0x100, u - 0x10000, u + 0x10000, u + 0x110000, u + 0x1000000, u + 0x40000000, math.MinInt32 + u} {
				checkSet(t, s, v, m.wantSet(s, v))
			}
		}
	}
}

// TestSetAlone: what is below 80, with the answers written out: outside behind it, whatever was ahead.
func TestSetAlone(t *testing.T) {
	for n := range 0x80 {
		unit := string([]byte{byte(n)})
		if n == 0x7E {
			unit = "\x7E\x7E"
		}
		checkSet(t, outside, rune(n), api.Put{Bytes: unit})
		checkSet(t, within, rune(n), api.Put{Bytes: "\x7E\x7D" + unit})
	}
}

// TestSetPlaces: every cell of every row of gb, both bytes with 20 added; within behind it, whatever was ahead.
func TestSetPlaces(t *testing.T) {
	n := 0
	for row := 1; row <= 94; row++ {
		for i, u := range gb.Row(row) {
			if u == 0xFFFD {
				continue
			}
			n++
			if row > 87 {
				checkSet(t, outside, u, api.Put{Err: api.None})
				checkSet(t, within, u, api.Put{Err: api.None})
				continue
			}
			unit := fmt.Sprintf("%c%c", 0x20+row, 0x20+i+1)
			checkSet(t, outside, u, api.Put{Bytes: "\x7E\x7B" + unit, S: api.State{Mode: 1}})
			checkSet(t, within, u, api.Put{Bytes: unit, S: api.State{Mode: 1}})
		}
	}
	if n != places {
		t.Errorf("%d cells", n)
	}
}

// TestSetNone: what has no place, and what is no scalar: None and nothing else, the state neither, in both states.
func TestSetNone(t *testing.T) {
	some := []rune{0x80, 0x81, 0xA0, 0xA1, 0xA5, 0xA9, 0xB7, 0xFF, 0x0100, 0x03C2, 0x2014, 0x203E, 0x20AC, 0x4E00, 0x4E01, 0x9FFF, 0xAC00, 0xE000, 0xFF71, 0xFFFC, 0xFFFD, 0xFFFE, 0xFFFF, 0x10000, 0x1000A, 0x1007E, 0x13042, 0x1F600, 0x1FFFD, 0x10FFFD, 0x10FFFF}
	for _, s := range states {
		for _, u := range append(some, noScalars...) {
			checkSet(t, s, u, api.Put{Err: api.None})
		}
	}
}

// TestEnd: ~} within, nothing outside.
func TestEnd(t *testing.T) {
	checkEnd(t, outside, "", api.OK)
	checkEnd(t, within, "~}", api.OK)
}

// Promise 20.3: there and back.

// TestTexts: scalars and what they are written as, by eye.
func TestTexts(t *testing.T) {
	for text, l := range map[string][]rune{
		"":                          nil,
		"\x00":                      {0},
		"A":                         {'A'},
		"~~":                        {'~'},
		"~~~~{":                     {'~', '~', '{'},
		"~~{":                       {'~', '{'},
		"\n":                        {'\n'},
		"~~\n":                      {'~', '\n'},
		"~{!!~}":                    {0x3000},
		"~{!~~}":                    {0x3013},
		"~{!~~}~~":                  {0x3013, '~'},
		"~{!~!~~}":                  {0x3013, 0x3013},
		"~~~{!~~}~~":                {'~', 0x3013, '~'},
		"~{$\"~}\n~{$\"~}":          {0x3042, '\n', 0x3042},
		"~{$\"$#$$~}A~{0!~}":        {0x3042, 0x3043, 0x3044, 'A', 0x554A},
		"{~{#{~}}":                  {'{', 0xFF5B, '}'},
		"~{#}~}~~\n~~~{!}~}":        {0xFF5D, '~', '\n', '~', 0x2193},
		"$\"~{$\"~}$\"":             {'$', '"', 0x3042, '$', '"'},
		"~{0!0\"0~~}~~~{!!~}\r\n~~": {0x554A, 0x963F, 0x5265, '~', 0x3000, '\r', '\n', '~'},
	} {
		if got := checkThereAndBack(t, l); got != text {
			t.Errorf("%X are written as %q, want %q", l, got, text)
		}
	}
}

// TestEveryScalar: each that has a place, alone, twice, and between others of both sorts.
func TestEveryScalar(t *testing.T) {
	all := newModel(t).scalars()
	if len(all) != 128+places {
		t.Fatalf("%d scalars", len(all))
	}
	for _, u := range all {
		for _, l := range [][]rune{{u}, {u, u}, {'A', u, 'B'}, {0x3042, u, 0x3013}, {0x3013, u, '~'}, {'~', u, 0x3013}, {'\n', u, '\n'}, {'{', u, '}'}, {0x3013, '~', u, '~', 0x3013}} {
			checkThereAndBack(t, l)
		}
	}
	for i := range all {
		checkThereAndBack(t, []rune{all[i], all[(i*7+3)%len(all)], all[(i*31+64)%len(all)]})
	}
	checkThereAndBack(t, all)
}

// TestShortRows: all rows of up to five of the scalars that could be taken for something else.
func TestShortRows(t *testing.T) {
	some := []rune{'A', '\n', '~', '{', '}', '$', 0x3042, 0x3013, 0xFF5D}
	rows := [][]rune{nil}
	for range 5 {
		var longer [][]rune
		for _, l := range rows {
			checkThereAndBack(t, l)
			for _, u := range some {
				longer = append(longer, append(slices.Clone(l), u))
			}
		}
		rows = longer
	}
	for _, l := range rows {
		checkThereAndBack(t, l)
	}
}

// TestRows: rows of any scalars, short and long, both sorts mixed, line feeds and ~ often among them.
func TestRows(t *testing.T) {
	r := rand.New(rand.NewPCG(20, 3))
	m := newModel(t)
	alone, paired := slices.Sorted(maps.Keys(m.alone)), slices.Sorted(maps.Keys(m.paired))
	some := []rune{'\n', '~', '{', '}', 0x3013}
	for i := range 3000 {
		long := 12
		if i%100 == 0 {
			long = 3000
		}
		var l []rune
		for range r.IntN(long) {
			from := [][]rune{alone, paired, some}[r.IntN(3)]
			l = append(l, from[r.IntN(len(from))])
		}
		checkThereAndBack(t, l)
	}
}

// TestAnyBytes is promise 20.1: any bytes, read to their end from the zero State on, passing over what is illegal: every step is the document's, takes none beyond two or beyond the end, and comes to one of the states.
func TestAnyBytes(t *testing.T) {
	r := rand.New(rand.NewPCG(20, 1))
	m := newModel(t)
	const often = "~~~{{}}\n\n!!$$\"\"0Awx"
	for range 20000 {
		b := make([]byte, r.IntN(24))
		for i := range b {
			b[i] = often[r.IntN(len(often))]
			if r.IntN(3) == 0 {
				b[i] = byte(r.Uint32())
			}
		}
		var s api.State
		for whole := b; ; {
			g := hz.Get(s, b)
			if want := m.wantGet(s, b); g != want {
				t.Fatalf("of % X: Get(%+v, % X) = %+v, want %+v", whole, s, b, g, want)
			}
			if g.N < 0 || g.N > 2 || g.N > len(b) || (g.Err == api.More) != (g.N == 0) {
				t.Fatalf("Get(%+v, % X) takes %d", s, b, g.N)
			}
			if g.Err == api.More {
				break
			}
			s, b = g.S, b[g.N:]
			if s != outside && s != within {
				t.Fatalf("of % X: comes to %+v", whole, s)
			}
		}
	}
}
