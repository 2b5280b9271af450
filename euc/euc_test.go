package euc_test

import (
	"bytes"
	"fmt"
	"math"
	"math/rand/v2"
	"slices"
	"strings"
	"testing"

	"dragoman/api"
	"dragoman/euc"
	"dragoman/gb"
	"dragoman/jis"
	"dragoman/ksc"
)

// kinds are the three, in the document's order.
var kinds = []int{api.EUCJP, api.EUCCN, api.EUCKR}

// What is said of the kinds, apart from the program.
func isKind(kind int) bool { return kind == 81 || kind == 84 || kind == 86 }
func isJP(kind int) bool   { return kind == 81 }

// rowOf is a row of the set of a kind; the lists are held against the document where they stand.
func rowOf(kind, row int) []rune {
	switch kind {
	case 81:
		return jis.Row(row)
	case 84:
		return gb.Row(row)
	}
	return ksc.Row(row)
}

// places are how many cells of a kind's rows stand for something, row by row as one counts them in the chapters; halves are the bytes behind 8E.
var (
	places = map[int]int{
		81: 94 + 53 + 62 + 83 + 86 + 48 + 66 + 32 + 94,
		84: 94 + 72 + 94 + 83 + 86 + 48 + 66 + 63 + 76 + 94,
		86: 94 + 71 + 94 + 93 + 68 + 68 + 79 + 91 + 94 + 83 + 86 + 66 + 94 + 94,
	}
	halves = map[int]int{81: 63}
)

// model is a kind by the document, apart from the program: all of its units.
type model struct {
	kind    int
	scalars map[string]rune // of whole units, of one byte and of two
	units   map[rune]string // the first of each scalar
}

func newModel(t *testing.T, kind int) model {
	t.Helper()
	m := model{kind, map[string]rune{}, map[rune]string{}}
	for n := range 0x80 {
		m.add(string([]byte{byte(n)}), rune(n))
	}
	for row := 1; row <= 94; row++ {
		for i, u := range rowOf(kind, row) {
			if u != 0xFFFD {
				m.add(string([]byte{byte(0xA0 + row), byte(0xA1 + i)}), u)
			}
		}
	}
	for n := 0; isJP(kind) && n <= 0xDF-0xA1; n++ {
		m.add(string([]byte{0x8E, byte(0xA1 + n)}), rune(0xFF61+n))
	}
	if want := 128 + places[kind] + halves[kind]; len(m.scalars) != want {
		t.Fatalf("kind %d has %d units, want %d", kind, len(m.scalars), want)
	}
	return m
}

func (m model) add(unit string, u rune) {
	m.scalars[unit] = u
	if _, ok := m.units[u]; !ok {
		m.units[u] = unit
	}
}

func isOfPair(b byte) bool { return b > 0xA0 && b < 0xFF }

// wantGet is what Get answers by the document.
func (m model) wantGet(b []byte) api.Got {
	if len(b) == 0 {
		return api.Got{Err: api.More}
	}
	if u, ok := m.scalars[string(b[:1])]; ok {
		return api.Got{N: 1, K: 1, A: u}
	}
	isShift := isJP(m.kind) && b[0] == 0x8E
	if !isShift && !isOfPair(b[0]) {
		return api.Got{Err: api.Illegal, N: 1}
	}
	if len(b) == 1 {
		return api.Got{Err: api.More}
	}
	if u, ok := m.scalars[string(b[:2])]; ok {
		return api.Got{N: 2, K: 1, A: u}
	}
	if isShift || !isOfPair(b[1]) {
		return api.Got{Err: api.Illegal, N: 1}
	}
	return api.Got{Err: api.Illegal, N: 2}
}

// wantSet is what Set answers by the document.
func (m model) wantSet(u rune) api.Put {
	if unit, ok := m.units[u]; ok {
		return api.Put{Bytes: unit}
	}
	return api.Put{Err: api.None}
}

func checkGet(t *testing.T, kind int, b []byte, want api.Got) {
	if got := euc.Get(kind, b); got != want {
		t.Helper()
		t.Fatalf("Get(%d, % .40X) = %+v, want %+v", kind, b, got, want)
	}
}

// told is what was put out, in words.
func told(p api.Put) string { return fmt.Sprintf("{%d, % X, %+v}", int(p.Err), p.Bytes, p.S) }

func checkSet(t *testing.T, kind int, u rune, want api.Put) {
	if got := euc.Set(kind, u); got != want {
		t.Helper()
		t.Fatalf("Set(%d, %X) = %s, want %s", kind, u, told(got), told(want))
	}
}

// checkUnit holds Get and Set at a unit that is known by eye.
func checkUnit(t *testing.T, kind int, unit string, u rune) {
	t.Helper()
	checkGet(t, kind, []byte(unit), api.Got{N: len(unit), K: 1, A: u})
	checkSet(t, kind, u, api.Put{Bytes: unit})
}

// tails are what may follow: nothing, bytes of every sort, whole units and beginnings of them.
var tails = []string{"", "\x00", "A", "\x7F", "\x80", "\x8E", "\x8E\xB1", "\xA0", "\xA1", "\xA1\xA1", "\xA4\xA2", "\xB0\xA1\xB0\xA1", "\xFE", "\xFE\xFE", "\xFF", "\xFF\xFF\xFF\xFF\xFF\xFF\xFF\xFF"}

// noScalars are numbers that are no scalars, at both sides of what is one, and far away.
var noScalars = []rune{
	math.MinInt32, math.MinInt32 + 1, math.MinInt32 + 'A', math.MinInt32 + 0x3042, math.MinInt32 + 0xFF71, math.MinInt32 + 0xFFFD, -0x1000000 + 'A', -0x1000000 + 0x3042, -0x110000, -0x10FFFF, -0x10000, -0xFFFD,
	-0xFF71, -0x3042, -257, -256, -255, -0xA1, -0xA0, -0x81, -0x80, -0x7F, -'A', -2, -1,
	0xD800, 0xD801, 0xD841, 0xDBFF, 0xDC00, 0xDC41, 0xDFFE, 0xDFFF,
	0x110000, 0x110001, 0x110000 + 'A', 0x113042, 0x11FF71, 0x11FFFD, 0x200000 + 'A', 0x1000000 + 'A', 0x1003042, 0x100FF71, 0x40000000 + 'A', 0x40003042, math.MaxInt32 - 0x7F, math.MaxInt32 - 1, math.MaxInt32,
}

// otherKinds are numbers that are none of the three: all around them, far ones, and such as become one of them if some bits are lost.
func otherKinds() []int {
	var l []int
	for kind := -300; kind <= 600; kind++ {
		if !isKind(kind) {
			l = append(l, kind)
		}
	}
	l = append(l, math.MinInt, math.MinInt+1, math.MinInt32, math.MaxInt32, math.MaxInt-1, math.MaxInt)
	for _, kind := range kinds {
		for _, far := range []int{1 << 8, 1 << 16, 1 << 31, 1 << 32, 1 << 40, math.MinInt} {
			l = append(l, kind+far, -kind-far)
		}
		l = append(l, -kind, ^kind)
	}
	return l
}

// TestExamples: the chapter's.
func TestExamples(t *testing.T) {
	checkGet(t, api.EUCJP, []byte("\xA4\xA2"), api.Got{N: 2, K: 1, A: 0x3042})
	checkGet(t, api.EUCJP, []byte("\x8E\xB1"), api.Got{N: 2, K: 1, A: 0xFF71})
	checkGet(t, api.EUCJP, []byte("\xA4"), api.Got{Err: api.More})
	checkGet(t, api.EUCJP, []byte("\xA4\x41"), api.Got{Err: api.Illegal, N: 1})
	checkGet(t, api.EUCJP, []byte("\xFE\xFE"), api.Got{Err: api.Illegal, N: 2})
	checkSet(t, api.EUCKR, 0xAC00, api.Put{Bytes: "\xB0\xA1"})
}

// Promise 17.1: the kinds.

// TestHas: the three, each other kind of the document, and all other numbers around them and far away.
func TestHas(t *testing.T) {
	for _, kind := range kinds {
		if !euc.Has(kind) {
			t.Errorf("Has(%d) = false", kind)
		}
	}
	for kind := -70000; kind <= 70000; kind++ {
		if euc.Has(kind) != isKind(kind) {
			t.Errorf("Has(%d) = %v", kind, euc.Has(kind))
		}
	}
	for _, kind := range otherKinds() {
		if euc.Has(kind) {
			t.Errorf("Has(%d) = true", kind)
		}
	}
	if api.EUCJP != 81 || api.EUCCN != 84 || api.EUCKR != 86 {
		t.Errorf("the kinds are %d", kinds)
	}
}

// TestGetOtherKinds: ErrKind and nothing else, with no bytes, with all beginnings and with such as are right, short or wrong in the three kinds.
func TestGetOtherKinds(t *testing.T) {
	all := [][]byte{nil, {}, []byte("\xA4\xA2"), []byte("\x8E\xB1"), []byte("\x8E\x41"), []byte("\xA4\x41"), []byte("\xFE\xFE"), []byte("\xB0\xA1A"), bytes.Repeat([]byte{0xA4}, 100)}
	for n := range 256 {
		all = append(all, []byte{byte(n)}, []byte{byte(n), 0xA1}, []byte{byte(n), 'A'})
	}
	for _, kind := range otherKinds() {
		for _, b := range all {
			checkGet(t, kind, b, api.Got{Err: api.ErrKind})
		}
	}
}

// TestSetOtherKinds: ErrKind and nothing else, also of what has a place in one of the three and of what has none anywhere.
func TestSetOtherKinds(t *testing.T) {
	some := append([]rune{0, 1, 'A', 0x7F, 0x80, 0xA0, 0xA5, 0xFF, 0x203E, 0x3042, 0x4E00, 0x554A, 0xAC00, 0xFF60, 0xFF61, 0xFF71, 0xFF9F, 0xFFA0, 0xFFFD, 0x10000, 0x10FFFF}, noScalars...)
	for _, kind := range otherKinds() {
		for _, u := range some {
			checkSet(t, kind, u, api.Put{Err: api.ErrKind})
		}
	}
}

// Promise 17.1: what is got.

// TestGetNothing: of no bytes there are more to come.
func TestGetNothing(t *testing.T) {
	for _, kind := range kinds {
		checkGet(t, kind, nil, api.Got{Err: api.More})
		checkGet(t, kind, []byte{}, api.Got{Err: api.More})
		// What lies behind a list's end is none of it.
		checkGet(t, kind, []byte("A\xA4\xA2")[:0], api.Got{Err: api.More})
	}
}

// TestGetAlone: every byte alone, with the answers written out.
func TestGetAlone(t *testing.T) {
	for _, kind := range kinds {
		for n := range 256 {
			want := api.Got{Err: api.Illegal, N: 1}
			switch {
			case n <= 0x7F:
				want = api.Got{N: 1, K: 1, A: rune(n)}
			case n >= 0xA1 && n <= 0xFE, n == 0x8E && kind == api.EUCJP:
				want = api.Got{Err: api.More}
			}
			checkGet(t, kind, []byte{byte(n)}, want)
			// What lies behind a list's end is none of it.
			checkGet(t, kind, []byte{byte(n), 0xA1, 0xA1}[:1], want)
		}
	}
}

// TestGetPairs: every first byte with every second byte, and whatever follows.
func TestGetPairs(t *testing.T) {
	for _, kind := range kinds {
		m := newModel(t, kind)
		for n := range 1 << 16 {
			for _, tail := range tails {
				b := append([]byte{byte(n >> 8), byte(n)}, tail...)
				checkGet(t, kind, b, m.wantGet(b))
			}
		}
	}
}

// TestGetCounts: how many of all pairs come to what, as one reckons it from the chapter.
func TestGetCounts(t *testing.T) {
	type sort struct {
		err  api.Errno
		n, k int
	}
	for _, kind := range kinds {
		want := map[sort]int{
			{api.OK, 1, 1}:      128 * 256,
			{api.OK, 2, 1}:      places[kind] + halves[kind],
			{api.Illegal, 2, 0}: 94*94 - places[kind],
			{api.Illegal, 1, 0}: 94*(256-94) + 34*256 - halves[kind],
		}
		got := map[sort]int{}
		for n := range 1 << 16 {
			g := euc.Get(kind, []byte{byte(n >> 8), byte(n)})
			got[sort{g.Err, g.N, g.K}]++
		}
		if len(got) != len(want) {
			t.Errorf("kind %d: %v, want %v", kind, got, want)
		}
		for s, n := range want {
			if got[s] != n {
				t.Errorf("kind %d: %d pairs come to %+v, want %d", kind, got[s], s, n)
			}
		}
	}
}

// TestUnits: units of each kind, at the ends of rows and of sets among them, as one finds them in the chapters by eye; both ways.
func TestUnits(t *testing.T) {
	for kind, units := range map[int]map[string]rune{
		api.EUCJP: {
			"\xA1\xA1": 0x3000, "\xA1\xC0": 0xFF3C, "\xA1\xC1": 0x301C, "\xA1\xFE": 0x25C7, "\xA2\xA1": 0x25C6, "\xA2\xFE": 0x25EF, "\xA3\xB0": 0xFF10, "\xA3\xFA": 0xFF5A,
			"\xA4\xA1": 0x3041, "\xA4\xA2": 0x3042, "\xA4\xF3": 0x3093, "\xA5\xA1": 0x30A1, "\xA5\xF6": 0x30F6, "\xA6\xA1": 0x0391, "\xA6\xD8": 0x03C9, "\xA7\xA1": 0x0410, "\xA7\xA7": 0x0401, "\xA7\xF1": 0x044F,
			"\xA8\xA1": 0x2500, "\xA8\xC0": 0x2542, "\xB0\xA1": 0x4E9C, "\xB0\xA2": 0x5516, "\xB0\xFE": 0x852D,
			"\x8E\xA1": 0xFF61, "\x8E\xA2": 0xFF62, "\x8E\xB1": 0xFF71, "\x8E\xDE": 0xFF9E, "\x8E\xDF": 0xFF9F,
		},
		api.EUCCN: {
			"\xA1\xA1": 0x3000, "\xA1\xA4": 0x30FB, "\xA1\xAA": 0x2015, "\xA2\xB1": 0x2488, "\xA2\xFC": 0x216B, "\xA3\xA1": 0xFF01, "\xA3\xA4": 0xFFE5, "\xA3\xC1": 0xFF21, "\xA3\xFE": 0xFFE3,
			"\xA4\xA2": 0x3042, "\xA5\xA1": 0x30A1, "\xA6\xA1": 0x0391, "\xA7\xA7": 0x0401, "\xA8\xA1": 0x0101, "\xA8\xE9": 0x3129, "\xA9\xA4": 0x2500, "\xA9\xEF": 0x254B, "\xB0\xA1": 0x554A, "\xB0\xA2": 0x963F,
		},
		api.EUCKR: {
			"\xA1\xA1": 0x3000, "\xA1\xA4": 0x00B7, "\xA2\xA1": 0x21D2, "\xA2\xE6": 0x20AC, "\xA2\xE7": 0x00AE, "\xA3\xA1": 0xFF01, "\xA3\xDC": 0xFFE6, "\xA3\xFE": 0xFFE3, "\xA4\xA1": 0x3131, "\xA4\xD3": 0x3163, "\xA4\xD5": 0x3165, "\xA4\xFE": 0x318E,
			"\xA5\xA1": 0x2170, "\xA5\xF8": 0x03C9, "\xA6\xA1": 0x2500, "\xA6\xE4": 0x254A, "\xA7\xA1": 0x3395, "\xA8\xA1": 0x00C6, "\xA8\xFE": 0x215E, "\xA9\xA1": 0x00E6, "\xA9\xFE": 0x2084, "\xAA\xA2": 0x3042, "\xAB\xA1": 0x30A1, "\xAC\xA7": 0x0401,
			"\xB0\xA1": 0xAC00, "\xB0\xA2": 0xAC01, "\xCA\xA1": 0x4F3D, "\xCA\xA2": 0x4F73,
		},
	} {
		for unit, u := range units {
			checkUnit(t, kind, unit, u)
		}
	}
	for _, kind := range kinds {
		for n := range 0x80 {
			checkUnit(t, kind, string([]byte{byte(n)}), rune(n))
		}
	}
}

// TestHalves: behind 8E, of EUCJP alone, stand the bytes A1 to DF, and not those below, though jis.Half has some of them.
func TestHalves(t *testing.T) {
	for n := range 256 {
		want := api.Got{Err: api.Illegal, N: 1}
		if n >= 0xA1 && n <= 0xDF {
			want = api.Got{N: 2, K: 1, A: rune(n - 0xA1 + 0xFF61)}
		}
		for _, tail := range tails {
			b := append([]byte{0x8E, byte(n)}, tail...)
			checkGet(t, api.EUCJP, b, want)
			checkGet(t, api.EUCCN, b, api.Got{Err: api.Illegal, N: 1})
			checkGet(t, api.EUCKR, b, api.Got{Err: api.Illegal, N: 1})
		}
	}
	checkGet(t, api.EUCJP, []byte{0x8E}, api.Got{Err: api.More})
	checkGet(t, api.EUCCN, []byte{0x8E}, api.Got{Err: api.Illegal, N: 1})
	checkGet(t, api.EUCKR, []byte{0x8E}, api.Got{Err: api.Illegal, N: 1})
}

// TestGetWrong: the edges of what is illegal, and how much of it is passed over, in all three kinds.
func TestGetWrong(t *testing.T) {
	for _, kind := range kinds {
		for _, a := range []byte{0x80, 0x81, 0x8D, 0x8F, 0x90, 0x9F, 0xA0, 0xFF} {
			for n := range 256 {
				checkGet(t, kind, []byte{a, byte(n)}, api.Got{Err: api.Illegal, N: 1})
				checkGet(t, kind, []byte{a, byte(n), 0xA1}, api.Got{Err: api.Illegal, N: 1})
			}
		}
		for _, c := range []byte{0x00, 0x0A, 0x20, 'A', 0x7F, 0x80, 0x8E, 0x8F, 0xA0, 0xFF} {
			for a := 0xA1; a <= 0xFE; a++ {
				checkGet(t, kind, []byte{byte(a), c}, api.Got{Err: api.Illegal, N: 1})
				checkGet(t, kind, []byte{byte(a), c, 0xA1}, api.Got{Err: api.Illegal, N: 1})
			}
		}
		// A cell that stands for nothing, and rows that are not listed, ahead of a listed one and at the end.
		for _, pair := range []string{"\xA4\xF4", "\xA4\xFE", "\xAD\xA1", "\xAF\xFE", "\xB1\xA1", "\xC9\xA1", "\xCB\xA1", "\xFE\xA1", "\xFE\xFE"} {
			if kind == api.EUCKR && strings.HasPrefix(pair, "\xA4") {
				pair = "\xA4\xD4"
			}
			for _, tail := range tails {
				checkGet(t, kind, []byte(pair+tail), api.Got{Err: api.Illegal, N: 2})
			}
		}
	}
}

// TestLong is rule R6: bytes beyond every limit are read from the front alike.
func TestLong(t *testing.T) {
	b := []byte(strings.Repeat("\xA1\xA1", 1+api.MaxIn/2))
	for _, kind := range kinds {
		checkGet(t, kind, b, api.Got{N: 2, K: 1, A: 0x3000})
		b[0] = 'A'
		checkGet(t, kind, b, api.Got{N: 1, K: 1, A: 'A'})
		b[0] = 0xFF
		checkGet(t, kind, b, api.Got{Err: api.Illegal, N: 1})
		b[0] = 0xA1
	}
}

// TestMemory is rule R4: what is handed in stays, also in the room behind a list's end.
func TestMemory(t *testing.T) {
	whole := []byte("A\xA4\xA2\x8E\xB1\x8E\xA4\x41\xFE\xFE\xFF\x80\xB0\xA1")
	kept := bytes.Clone(whole)
	for _, kind := range kinds {
		for n := range len(whole) + 1 {
			for from := range n + 1 {
				euc.Get(kind, whole[from:n])
			}
		}
	}
	if !bytes.Equal(whole, kept) {
		t.Errorf("% X are % X afterwards", kept, whole)
	}
}

// Promise 17.2: what is set.

// TestSetEvery: every scalar, and the numbers around them.
func TestSetEvery(t *testing.T) {
	for _, kind := range kinds {
		m := newModel(t, kind)
		for u := rune(-0x11000); u < 0x121000; u++ {
			checkSet(t, kind, u, m.wantSet(u))
		}
		for bit := range 32 {
			for d := range uint32(5) {
				u := rune(uint32(1)<<bit + d - 2)
				checkSet(t, kind, u, m.wantSet(u))
			}
		}
		// Numbers that a scalar could be taken for, if some of their bits were lost.
		for u := range m.units {
			for _, v := range []rune{-u, ^u, u - 0x100, u + 0x100, u - 0x10000, u + 0x10000, u + 0x110000, u + 0x1000000, u + 0x40000000, math.MinInt32 + u} {
				checkSet(t, kind, v, m.wantSet(v))
			}
		}
	}
}

// TestSetNone: what has no place in any of the kinds, and what is no scalar.
func TestSetNone(t *testing.T) {
	some := []rune{0x80, 0x81, 0x8D, 0x8E, 0x8F, 0x9F, 0xA0, 0xA5, 0xA6, 0xA9, 0xFF, 0x0100, 0x03C2, 0x203E, 0x4E01, 0x9FFF, 0xFF60, 0xFFA0, 0xFFFC, 0xFFFD, 0xFFFE, 0xFFFF, 0x10000, 0x13042, 0x1F600, 0x1FF71, 0x1FFFD, 0x10FFFD, 0x10FFFF}
	for _, kind := range kinds {
		for _, u := range append(some, noScalars...) {
			checkSet(t, kind, u, api.Put{Err: api.None})
		}
	}
}

// TestSetHalves: U+FF61 to U+FF9F have a byte behind 8E in EUCJP, and no place in the others; what else JIS X 0201 has a byte for is no such.
func TestSetHalves(t *testing.T) {
	for u := rune(0xFF61); u <= 0xFF9F; u++ {
		checkSet(t, api.EUCJP, u, api.Put{Bytes: string([]byte{0x8E, byte(u - 0xFF61 + 0xA1)})})
		checkSet(t, api.EUCCN, u, api.Put{Err: api.None})
		checkSet(t, api.EUCKR, u, api.Put{Err: api.None})
	}
	for _, u := range []rune{0xA5, 0x203E, 0xFF60, 0xFFA0} {
		checkSet(t, api.EUCJP, u, api.Put{Err: api.None})
	}
	checkSet(t, api.EUCJP, 0x5C, api.Put{Bytes: "\x5C"})
	checkSet(t, api.EUCJP, 0x7E, api.Put{Bytes: "\x7E"})
}

// TestSetByKind: scalars that one kind has a place for and another has not, or elsewhere.
func TestSetByKind(t *testing.T) {
	for u, want := range map[rune][3]string{
		0x3042: {"\xA4\xA2", "\xA4\xA2", "\xAA\xA2"},
		0x0391: {"\xA6\xA1", "\xA6\xA1", "\xA5\xC1"},
		0x2500: {"\xA8\xA1", "\xA9\xA4", "\xA6\xA1"},
		0x301C: {"\xA1\xC1", "", ""},
		0x4E9C: {"\xB0\xA1", "", ""},
		0x554A: {"", "\xB0\xA1", ""},
		0x0101: {"", "\xA8\xA1", ""},
		0x963F: {"\xB0\xA4", "\xB0\xA2", ""},
		0xAC00: {"", "", "\xB0\xA1"},
		0x20AC: {"", "", "\xA2\xE6"},
		0xAC02: {"", "", ""},
	} {
		for i, kind := range kinds {
			p := api.Put{Bytes: want[i]}
			if want[i] == "" {
				p.Err = api.None
			}
			checkSet(t, kind, u, p)
		}
	}
}

// Promise 17.3, and the state.

// TestGetOfSet: for every scalar that has a place, whatever follows.
func TestGetOfSet(t *testing.T) {
	for _, kind := range kinds {
		n := 0
		for u := rune(0); u <= 0x10FFFF; u++ {
			p := euc.Set(kind, u)
			if p.Err == api.None {
				continue
			}
			n++
			want := api.Got{N: len(p.Bytes), K: 1, A: u}
			for _, tail := range tails {
				checkGet(t, kind, []byte(p.Bytes+tail), want)
			}
			for c := range 256 {
				checkGet(t, kind, append([]byte(p.Bytes), byte(c)), want)
			}
		}
		// No scalar stands in two cells of a set.
		if want := 128 + places[kind] + halves[kind]; n != want {
			t.Errorf("kind %d: %d scalars have a place, want %d", kind, n, want)
		}
	}
}

// TestSetOfGet: what was got of a row and a cell is set at a place that stands for the same.
func TestSetOfGet(t *testing.T) {
	for _, kind := range kinds {
		for n := range 1 << 16 {
			b := []byte{byte(n >> 8), byte(n)}
			g := euc.Get(kind, b)
			if g.Err != api.OK || g.N != 2 {
				continue
			}
			p := euc.Set(kind, g.A)
			if p.Err != api.OK || len(p.Bytes) != 2 {
				t.Fatalf("Set(%d, %X) = %s, of % X", kind, g.A, told(p), b)
			}
			checkGet(t, kind, []byte(p.Bytes), g)
		}
	}
}

// TestState: it is always the zero one, with errors and without.
func TestState(t *testing.T) {
	for _, kind := range append([]int{0, 80, 82, 83, 85, 87, 88}, kinds...) {
		for n := range 1 << 16 {
			for _, b := range [][]byte{{byte(n >> 8), byte(n)}, {byte(n)}} {
				if g := euc.Get(kind, b); g.S != (api.State{}) || g.B != 0 {
					t.Fatalf("Get(%d, % X) = %+v", kind, b, g)
				}
			}
			if p := euc.Set(kind, rune(n)); p.S != (api.State{}) {
				t.Fatalf("Set(%d, %X) = %s", kind, n, told(p))
			}
		}
	}
}

// TestRows is promise 17.3: scalars that are written one behind the other are read as these, to the last byte.
func TestRows(t *testing.T) {
	r := rand.New(rand.NewPCG(17, 3))
	for _, kind := range kinds {
		var all []rune
		for u := range newModel(t, kind).units {
			all = append(all, u)
		}
		slices.Sort(all)
		for range 2000 {
			var b []byte
			var want, got []rune
			for range r.IntN(12) {
				u := all[r.IntN(len(all))]
				b, want = append(b, euc.Set(kind, u).Bytes...), append(want, u)
			}
			for whole := b; len(b) > 0; {
				g := euc.Get(kind, b)
				if g.Err != api.OK {
					t.Fatalf("kind %d: Get of % X, of % X = %+v", kind, b, whole, g)
				}
				b, got = b[g.N:], append(got, g.A)
			}
			if !slices.Equal(got, want) {
				t.Errorf("kind %d: %X are read as %X", kind, want, got)
			}
		}
	}
}

// TestAnyBytes is promise 17.1: any bytes, none taken beyond two or beyond the end.
func TestAnyBytes(t *testing.T) {
	r := rand.New(rand.NewPCG(17, 1))
	for _, kind := range kinds {
		m := newModel(t, kind)
		for range 100000 {
			b := make([]byte, r.IntN(6))
			for i := range b {
				b[i] = byte(r.Uint32())
			}
			g := euc.Get(kind, b)
			if want := m.wantGet(b); g != want {
				t.Fatalf("Get(%d, % X) = %+v, want %+v", kind, b, g, want)
			}
			if g.N < 0 || g.N > 2 || g.N > len(b) || (g.Err == api.More) != (g.N == 0) {
				t.Errorf("Get(%d, % X) takes %d", kind, b, g.N)
			}
		}
	}
}
