package sjis_test

import (
	"bytes"
	"fmt"
	"math"
	"math/rand/v2"
	"slices"
	"strings"
	"testing"

	"dragoman/api"
	"dragoman/jis"
	"dragoman/sjis"
)

// What is said of bytes, apart from the program.
func isLead(b byte) bool  { return b > 0x80 && b < 0xA0 || b > 0xDF && b < 0xF0 }
func isTrail(b byte) bool { return b > 0x3F && b < 0xFD && b != 0x7F }

// place is a row and a cell.
type place struct{ row, cell int }

// allPlaces is the place of every pair of a lead and a trail, by counting alone: both go up in their order while cells and then rows do, so that nothing is folded here.
func allPlaces() map[[2]byte]place {
	m := map[[2]byte]place{}
	at := place{1, 0}
	for a := range 256 {
		for b := range 256 {
			if !isLead(byte(a)) || !isTrail(byte(b)) {
				continue
			}
			at.cell++
			if at.cell > 94 {
				at = place{at.row + 1, 1}
			}
			m[[2]byte{byte(a), byte(b)}] = at
		}
	}
	return m
}

// formula is the pair of a row and a cell, as the chapter's section Words says it.
func formula(row, cell int) [2]byte {
	k := 0
	for 2*k+2 < row {
		k++
	}
	a := 0x81 + k
	if a > 0x9F {
		a = 0xC1 + k
	}
	b := 0x9E + cell
	if row == 2*k+1 {
		b = 0x3F + cell
		if cell > 63 {
			b = 0x40 + cell
		}
	}
	return [2]byte{byte(a), byte(b)}
}

// How many cells of the rows stand for something, row by row as one counts them in chapter 14, and how many bytes do it alone.
const (
	places = 94 + 53 + 62 + 83 + 86 + 48 + 66 + 32 + 94
	halves = 128 + 63
)

// model is the encoding by the document, apart from the program: all of its units.
type model struct {
	scalars map[string]rune // of whole units, of one byte and of two
	units   map[rune]string // the first of each scalar
}

// newModel takes the rows from jis, whose lists are held against the document where they stand.
func newModel(t *testing.T) model {
	t.Helper()
	m := model{map[string]rune{}, map[rune]string{}}
	for n := range 0x80 {
		u := rune(n)
		switch n {
		case 0x5C:
			u = 0xA5
		case 0x7E:
			u = 0x203E
		}
		m.add(string([]byte{byte(n)}), u)
	}
	for n := range 63 {
		m.add(string([]byte{byte(0xA1 + n)}), rune(0xFF61+n))
	}
	for row := 1; row <= 94; row++ {
		for i, u := range jis.Row(row) {
			if both := formula(row, i+1); u != 0xFFFD {
				m.add(string(both[:]), u)
			}
		}
	}
	if len(m.scalars) != halves+places || len(m.units) != halves+places {
		t.Fatalf("%d units of %d scalars, want %d", len(m.scalars), len(m.units), halves+places)
	}
	return m
}

func (m model) add(unit string, u rune) {
	m.scalars[unit] = u
	if _, ok := m.units[u]; !ok {
		m.units[u] = unit
	}
}

// wantGet is what Get answers by the document.
func (m model) wantGet(b []byte) api.Got {
	if len(b) == 0 {
		return api.Got{Err: api.More}
	}
	if !isLead(b[0]) {
		if u, ok := m.scalars[string(b[:1])]; ok {
			return api.Got{N: 1, K: 1, A: u}
		}
		return api.Got{Err: api.Illegal, N: 1}
	}
	if len(b) == 1 {
		return api.Got{Err: api.More}
	}
	if !isTrail(b[1]) {
		return api.Got{Err: api.Illegal, N: 1}
	}
	if u, ok := m.scalars[string(b[:2])]; ok {
		return api.Got{N: 2, K: 1, A: u}
	}
	return api.Got{Err: api.Illegal, N: 2}
}

// wantSet is what Set answers by the document.
func (m model) wantSet(u rune) api.Put {
	if unit, ok := m.units[u]; ok {
		return api.Put{Bytes: unit}
	}
	return api.Put{Err: api.None}
}

func checkPack(t *testing.T, row, cell int, a, b byte, ok bool) {
	if gotA, gotB, gotOK := sjis.Pack(row, cell); gotA != a || gotB != b || gotOK != ok {
		t.Helper()
		t.Fatalf("Pack(%d, %d) = %X, %X, %v, want %X, %X, %v", row, cell, gotA, gotB, gotOK, a, b, ok)
	}
}

func checkUnpack(t *testing.T, a, b byte, row, cell int, ok bool) {
	if gotRow, gotCell, gotOK := sjis.Unpack(a, b); gotRow != row || gotCell != cell || gotOK != ok {
		t.Helper()
		t.Fatalf("Unpack(%X, %X) = %d, %d, %v, want %d, %d, %v", a, b, gotRow, gotCell, gotOK, row, cell, ok)
	}
}

func checkGet(t *testing.T, b []byte, want api.Got) {
	if got := sjis.Get(b); got != want {
		t.Helper()
		t.Fatalf("Get(% .40X) = %+v, want %+v", b, got, want)
	}
}

// told is what was put out, in words.
func told(p api.Put) string { return fmt.Sprintf("{%d, % X, %+v}", int(p.Err), p.Bytes, p.S) }

func checkSet(t *testing.T, u rune, want api.Put) {
	if got := sjis.Set(u); got != want {
		t.Helper()
		t.Fatalf("Set(%X) = %s, want %s", u, told(got), told(want))
	}
}

// tails are what may follow: nothing, bytes of every sort, whole units and beginnings of them.
var tails = []string{"", "\x00", "A", "\x40", "\x5C", "\x7E", "\x7F", "\x80", "\x81", "\x81\x40", "\x82\xA0", "\x9F", "\xA0", "\xA1", "\xB1\xB1", "\xE0", "\xEF\xFC", "\xFC", "\xFD", "\xFF\xFF\xFF\xFF\xFF\xFF\xFF\xFF"}

// noScalars are numbers that are no scalars, at both sides of what is one, and far away.
var noScalars = []rune{
	math.MinInt32, math.MinInt32 + 1, math.MinInt32 + 'A', math.MinInt32 + 0x3042, math.MinInt32 + 0xFF71, math.MinInt32 + 0xFFFD, -0x1000000 + 'A', -0x1000000 + 0x3042, -0x110000, -0x10FFFF, -0x10000, -0xFFFD,
	-0xFF71, -0x3042, -0x203E, -257, -256, -255, -0xA5, -0xA1, -0xA0, -0x81, -0x80, -0x7F, -0x7E, -0x5C, -'A', -2, -1,
	0xD800, 0xD801, 0xD841, 0xDBFF, 0xDC00, 0xDC41, 0xDFFE, 0xDFFF,
	0x110000, 0x110001, 0x110000 + 'A', 0x113042, 0x11FF71, 0x11FFFD, 0x200000 + 'A', 0x1000000 + 'A', 0x1003042, 0x100FF71, 0x40000000 + 'A', 0x40003042, math.MaxInt32 - 0x7F, math.MaxInt32 - 1, math.MaxInt32,
}

// outside are numbers of no row and no cell: all around those that are one, far ones, and such as become one if some bits are lost.
func outside() []int {
	var l []int
	for n := -300; n <= 600; n++ {
		if n < 1 || n > 94 {
			l = append(l, n)
		}
	}
	l = append(l, math.MinInt, math.MinInt+1, math.MinInt32, math.MaxInt32, math.MaxInt-1, math.MaxInt)
	for _, n := range []int{1, 2, 4, 63, 64, 93, 94} {
		for _, far := range []int{1 << 8, 1 << 16, 1 << 31, 1 << 32, 1 << 40, 1 << 62, math.MinInt} {
			l = append(l, n+far, -n-far)
		}
		l = append(l, n-94, n-2*94, n+94, n+2*94, n+94*94)
	}
	return slices.DeleteFunc(l, func(n int) bool { return n >= 1 && n <= 94 })
}

// TestModel: counting and the chapter's words come to one thing.
func TestModel(t *testing.T) {
	all := allPlaces()
	if len(all) != 94*94 {
		t.Fatalf("%d pairs", len(all))
	}
	for both, at := range all {
		if formula(at.row, at.cell) != both {
			t.Fatalf("%X is row %d, cell %d by counting, %X by words", both, at.row, at.cell, formula(at.row, at.cell))
		}
	}
}

// TestExamples: the chapter's.
func TestExamples(t *testing.T) {
	checkGet(t, []byte("\x82\xA0"), api.Got{N: 2, K: 1, A: 0x3042})
	checkPack(t, 4, 2, 0x82, 0xA0, true)
	checkPack(t, 1, 64, 0x81, 0x80, true)
	checkPack(t, 94, 94, 0xEF, 0xFC, true)
	checkUnpack(t, 0x81, 0x7F, 0, 0, false)
	checkGet(t, []byte("\xB1"), api.Got{N: 1, K: 1, A: 0xFF71})
	checkGet(t, []byte("\x5C"), api.Got{N: 1, K: 1, A: 0xA5})
	checkGet(t, []byte("\x82"), api.Got{Err: api.More})
	checkGet(t, []byte("\x82\x20"), api.Got{Err: api.Illegal, N: 1})
	checkGet(t, []byte("\xA0"), api.Got{Err: api.Illegal, N: 1})
}

// Promise 18.1: rows and cells, leads and trails.

// TestPlacesByEye: both ways, at the ends of rows, of trails and of leads.
func TestPlacesByEye(t *testing.T) {
	for at, both := range map[place][2]byte{
		{1, 1}: {0x81, 0x40}, {1, 62}: {0x81, 0x7D}, {1, 63}: {0x81, 0x7E}, {1, 64}: {0x81, 0x80}, {1, 65}: {0x81, 0x81}, {1, 94}: {0x81, 0x9E},
		{2, 1}: {0x81, 0x9F}, {2, 63}: {0x81, 0xDD}, {2, 64}: {0x81, 0xDE}, {2, 94}: {0x81, 0xFC},
		{3, 1}: {0x82, 0x40}, {3, 16}: {0x82, 0x4F}, {3, 94}: {0x82, 0x9E}, {4, 1}: {0x82, 0x9F}, {4, 94}: {0x82, 0xFC},
		{16, 1}: {0x88, 0x9F}, {47, 94}: {0x98, 0x9E}, {48, 1}: {0x98, 0x9F},
		{60, 94}: {0x9E, 0xFC}, {61, 1}: {0x9F, 0x40}, {61, 64}: {0x9F, 0x80}, {62, 1}: {0x9F, 0x9F}, {62, 94}: {0x9F, 0xFC},
		{63, 1}: {0xE0, 0x40}, {63, 63}: {0xE0, 0x7E}, {63, 64}: {0xE0, 0x80}, {64, 1}: {0xE0, 0x9F}, {64, 94}: {0xE0, 0xFC}, {65, 1}: {0xE1, 0x40},
		{92, 94}: {0xEE, 0xFC}, {93, 1}: {0xEF, 0x40}, {93, 94}: {0xEF, 0x9E}, {94, 1}: {0xEF, 0x9F}, {94, 93}: {0xEF, 0xFB}, {94, 94}: {0xEF, 0xFC},
	} {
		checkPack(t, at.row, at.cell, both[0], both[1], true)
		checkUnpack(t, both[0], both[1], at.row, at.cell, true)
	}
}

// TestPackEvery: all rows and cells.
func TestPackEvery(t *testing.T) {
	for row := 1; row <= 94; row++ {
		for cell := 1; cell <= 94; cell++ {
			both := formula(row, cell)
			checkPack(t, row, cell, both[0], both[1], true)
		}
	}
	for both, at := range allPlaces() {
		checkPack(t, at.row, at.cell, both[0], both[1], true)
	}
}

// TestPackOutside: a row that is none, a cell that is none, and both.
func TestPackOutside(t *testing.T) {
	all := outside()
	for _, n := range []int{0, 95, -1, -94, math.MinInt, math.MaxInt} {
		if !slices.Contains(all, n) {
			t.Fatalf("%d is not asked", n)
		}
	}
	for _, n := range all {
		for m := 1; m <= 94; m++ {
			checkPack(t, n, m, 0, 0, false)
			checkPack(t, m, n, 0, 0, false)
		}
		for _, m := range all {
			checkPack(t, n, m, 0, 0, false)
		}
	}
}

// TestUnpackEvery: all pairs of bytes; those that are no lead and trail have nothing.
func TestUnpackEvery(t *testing.T) {
	all := allPlaces()
	n := 0
	for a := range 256 {
		for b := range 256 {
			at, ok := all[[2]byte{byte(a), byte(b)}]
			checkUnpack(t, byte(a), byte(b), at.row, at.cell, ok)
			if _, _, ok := sjis.Unpack(byte(a), byte(b)); ok {
				n++
			}
		}
	}
	if n != 94*94 {
		t.Errorf("%d pairs have a row and a cell", n)
	}
}

// TestUnpackWrong: bytes at the edges of leads and of trails, with every other beside them.
func TestUnpackWrong(t *testing.T) {
	for n := range 256 {
		for _, a := range []byte{0x00, 0x40, 0x5C, 0x7F, 0x80, 0xA0, 0xA1, 0xB1, 0xDF, 0xF0, 0xFC, 0xFF} {
			checkUnpack(t, a, byte(n), 0, 0, false)
		}
		for _, b := range []byte{0x00, 0x20, 0x3E, 0x3F, 0x7F, 0xFD, 0xFE, 0xFF} {
			checkUnpack(t, byte(n), b, 0, 0, false)
		}
	}
}

// Promise 18.2: what is got.

// TestGetNothing: of no bytes there are more to come.
func TestGetNothing(t *testing.T) {
	checkGet(t, nil, api.Got{Err: api.More})
	checkGet(t, []byte{}, api.Got{Err: api.More})
	// What lies behind a list's end is none of it.
	checkGet(t, []byte("A\x82\xA0")[:0], api.Got{Err: api.More})
}

// TestGetAlone: every byte alone, with the answers written out.
func TestGetAlone(t *testing.T) {
	for n := range 256 {
		want := api.Got{Err: api.Illegal, N: 1}
		switch {
		case n == 0x5C:
			want = api.Got{N: 1, K: 1, A: 0xA5}
		case n == 0x7E:
			want = api.Got{N: 1, K: 1, A: 0x203E}
		case n <= 0x7F:
			want = api.Got{N: 1, K: 1, A: rune(n)}
		case n >= 0xA1 && n <= 0xDF:
			want = api.Got{N: 1, K: 1, A: rune(n - 0xA1 + 0xFF61)}
		case n >= 0x81 && n <= 0x9F, n >= 0xE0 && n <= 0xEF:
			want = api.Got{Err: api.More}
		}
		checkGet(t, []byte{byte(n)}, want)
		// What lies behind a list's end is none of it.
		checkGet(t, []byte{byte(n), 0xA0, 0x40}[:1], want)
	}
}

// TestGetPairs: every first byte with every second byte, and whatever follows.
func TestGetPairs(t *testing.T) {
	m := newModel(t)
	for n := range 1 << 16 {
		for _, tail := range tails {
			b := append([]byte{byte(n >> 8), byte(n)}, tail...)
			checkGet(t, b, m.wantGet(b))
		}
	}
}

// TestGetCounts: how many of all pairs come to what, as one reckons it from the chapter.
func TestGetCounts(t *testing.T) {
	type sort struct {
		err  api.Errno
		n, k int
	}
	want := map[sort]int{
		{api.OK, 1, 1}:      halves * 256,
		{api.OK, 2, 1}:      places,
		{api.Illegal, 2, 0}: 94*94 - places,
		{api.Illegal, 1, 0}: 47*(256-188) + 18*256,
	}
	got := map[sort]int{}
	for n := range 1 << 16 {
		g := sjis.Get([]byte{byte(n >> 8), byte(n)})
		got[sort{g.Err, g.N, g.K}]++
	}
	if len(got) != len(want) {
		t.Errorf("%v, want %v", got, want)
	}
	for s, n := range want {
		if got[s] != n {
			t.Errorf("%d pairs come to %+v, want %d", got[s], s, n)
		}
	}
}

// TestUnits: units at the ends of rows and of sets, as one finds them in the chapters by eye; both ways.
func TestUnits(t *testing.T) {
	for unit, u := range map[string]rune{
		"\x00": 0, "\x1F": 0x1F, " ": ' ', "A": 'A', "\x5B": 0x5B, "\x5C": 0xA5, "\x5D": 0x5D, "\x7D": 0x7D, "\x7E": 0x203E, "\x7F": 0x7F,
		"\xA1": 0xFF61, "\xA2": 0xFF62, "\xB1": 0xFF71, "\xDE": 0xFF9E, "\xDF": 0xFF9F,
		"\x81\x40": 0x3000, "\x81\x5F": 0xFF3C, "\x81\x60": 0x301C, "\x81\x7E": 0xD7, "\x81\x80": 0xF7, "\x81\x9E": 0x25C7, "\x81\x9F": 0x25C6, "\x81\xFC": 0x25EF,
		"\x82\x4F": 0xFF10, "\x82\x58": 0xFF19, "\x82\x60": 0xFF21, "\x82\x79": 0xFF3A, "\x82\x81": 0xFF41, "\x82\x9A": 0xFF5A, "\x82\x9F": 0x3041, "\x82\xA0": 0x3042, "\x82\xF1": 0x3093,
		"\x83\x40": 0x30A1, "\x83\x7E": 0x30DF, "\x83\x80": 0x30E0, "\x83\x96": 0x30F6, "\x83\x9F": 0x0391, "\x83\xD6": 0x03C9,
		"\x84\x40": 0x0410, "\x84\x46": 0x0401, "\x84\x7E": 0x043D, "\x84\x80": 0x043E, "\x84\x91": 0x044F, "\x84\x9F": 0x2500, "\x84\xBE": 0x2542,
		"\x88\x9F": 0x4E9C, "\x88\xA0": 0x5516, "\x88\xFC": 0x852D,
	} {
		checkGet(t, []byte(unit), api.Got{N: len(unit), K: 1, A: u})
		checkSet(t, u, api.Put{Bytes: unit})
	}
}

// TestGetWrong: the edges of what is illegal, and how much of it is passed over.
func TestGetWrong(t *testing.T) {
	for _, a := range []byte{0x80, 0xA0, 0xF0, 0xF1, 0xF9, 0xFC, 0xFD, 0xFE, 0xFF} {
		checkGet(t, []byte{a}, api.Got{Err: api.Illegal, N: 1})
		for n := range 256 {
			checkGet(t, []byte{a, byte(n)}, api.Got{Err: api.Illegal, N: 1})
			checkGet(t, []byte{a, byte(n), 0xA0}, api.Got{Err: api.Illegal, N: 1})
		}
	}
	for n := range 256 {
		if !isLead(byte(n)) {
			continue
		}
		for _, b := range []byte{0x00, 0x0A, 0x20, 0x3F, 0x7F, 0xFD, 0xFE, 0xFF} {
			checkGet(t, []byte{byte(n), b}, api.Got{Err: api.Illegal, N: 1})
			checkGet(t, []byte{byte(n), b, 0xA0}, api.Got{Err: api.Illegal, N: 1})
		}
	}
	// Cells that stand for nothing, and rows that are not listed, ahead of a listed one and at the end.
	for _, pair := range []string{"\x81\xAD", "\x82\x40", "\x82\x4E", "\x82\x9E", "\x82\xFC", "\x83\x97", "\x84\xBF", "\x85\x40", "\x88\x9E", "\x89\x40", "\x9F\xFC", "\xE0\x40", "\xE0\x80", "\xEF\x40", "\xEF\xFC"} {
		for _, tail := range tails {
			checkGet(t, []byte(pair+tail), api.Got{Err: api.Illegal, N: 2})
		}
	}
}

// TestLong is rule R6: bytes beyond every limit are read from the front alike.
func TestLong(t *testing.T) {
	b := []byte(strings.Repeat("\x81\x40", 1+api.MaxIn/2))
	checkGet(t, b, api.Got{N: 2, K: 1, A: 0x3000})
	b[0] = 'A'
	checkGet(t, b, api.Got{N: 1, K: 1, A: 'A'})
	b[0] = 0xFF
	checkGet(t, b, api.Got{Err: api.Illegal, N: 1})
	b[0] = 0xEF
	checkGet(t, b, api.Got{Err: api.Illegal, N: 2})
}

// TestMemory is rule R4: what is handed in stays, also in the room behind a list's end.
func TestMemory(t *testing.T) {
	whole := []byte("A\x82\xA0\xB1\x5C\x81\x7F\x81\x20\xEF\xFC\xFF\x80\x88\x9F")
	kept := bytes.Clone(whole)
	for n := range len(whole) + 1 {
		for from := range n + 1 {
			sjis.Get(whole[from:n])
		}
	}
	if !bytes.Equal(whole, kept) {
		t.Errorf("% X are % X afterwards", kept, whole)
	}
}

// Promise 18.2: what is set.

// TestSetEvery: every scalar, and the numbers around them.
func TestSetEvery(t *testing.T) {
	m := newModel(t)
	for u := rune(-0x11000); u < 0x121000; u++ {
		checkSet(t, u, m.wantSet(u))
	}
	for bit := range 32 {
		for d := range uint32(5) {
			u := rune(uint32(1)<<bit + d - 2)
			checkSet(t, u, m.wantSet(u))
		}
	}
	// Numbers that a scalar could be taken for, if some of their bits were lost.
	for u := range m.units {
		for _, v := range []rune{-u, ^u, u - 0x100, u + 0x100, u - 0x10000, u + 0x10000, u + 0x110000, u + 0x1000000, u + 0x40000000, math.MinInt32 + u} {
			checkSet(t, v, m.wantSet(v))
		}
	}
}

// TestSetNone: what has no place, the two that JIS X 0201 has given away among it, and what is no scalar.
func TestSetNone(t *testing.T) {
	some := []rune{0x5C, 0x7E, 0x80, 0x81, 0x9F, 0xA0, 0xA1, 0xA6, 0xA9, 0xE0, 0xFC, 0xFF, 0x0100, 0x03C2, 0x203D, 0x203F, 0x20AC, 0x4E01, 0x9FFF, 0xAC00, 0xFF5E, 0xFF60, 0xFFA0, 0xFFBD, 0xFFFC, 0xFFFD, 0xFFFE, 0xFFFF, 0x10000, 0x13042, 0x1F600, 0x1FF71, 0x1FFFD, 0x10FFFD, 0x10FFFF}
	for _, u := range append(some, noScalars...) {
		checkSet(t, u, api.Put{Err: api.None})
	}
}

// TestSetHalves: what JIS X 0201 has a byte for is that byte.
func TestSetHalves(t *testing.T) {
	for u := rune(0); u < 0x80; u++ {
		want := api.Put{Bytes: string([]byte{byte(u)})}
		if u == 0x5C || u == 0x7E {
			want = api.Put{Err: api.None}
		}
		checkSet(t, u, want)
	}
	checkSet(t, 0xA5, api.Put{Bytes: "\x5C"})
	checkSet(t, 0x203E, api.Put{Bytes: "\x7E"})
	for u := rune(0xFF61); u <= 0xFF9F; u++ {
		checkSet(t, u, api.Put{Bytes: string([]byte{byte(u - 0xFF61 + 0xA1)})})
	}
}

// Promise 18.3, and the state.

// TestPackUndone: all rows and cells are those again of which the two bytes were made, and no two have the same.
func TestPackUndone(t *testing.T) {
	seen := map[[2]byte]place{}
	for row := 1; row <= 94; row++ {
		for cell := 1; cell <= 94; cell++ {
			a, b, ok := sjis.Pack(row, cell)
			if !ok || !isLead(a) || !isTrail(b) {
				t.Fatalf("Pack(%d, %d) = %X, %X, %v", row, cell, a, b, ok)
			}
			if other, ok := seen[[2]byte{a, b}]; ok {
				t.Fatalf("%X %X is row %d, cell %d and %+v", a, b, row, cell, other)
			}
			seen[[2]byte{a, b}] = place{row, cell}
			checkUnpack(t, a, b, row, cell, true)
		}
	}
}

// TestUnpackUndone: all leads and trails are those again of which row and cell were made.
func TestUnpackUndone(t *testing.T) {
	for a := range 256 {
		for b := range 256 {
			row, cell, ok := sjis.Unpack(byte(a), byte(b))
			if ok != (isLead(byte(a)) && isTrail(byte(b))) {
				t.Fatalf("Unpack(%X, %X) = %d, %d, %v", a, b, row, cell, ok)
			}
			if ok {
				checkPack(t, row, cell, byte(a), byte(b), true)
			}
		}
	}
}

// TestGetOfSet: for every scalar that has a place, whatever follows.
func TestGetOfSet(t *testing.T) {
	n := 0
	for u := rune(0); u <= 0x10FFFF; u++ {
		p := sjis.Set(u)
		if p.Err == api.None {
			continue
		}
		n++
		want := api.Got{N: len(p.Bytes), K: 1, A: u}
		for _, tail := range tails {
			checkGet(t, []byte(p.Bytes+tail), want)
		}
		for c := range 256 {
			checkGet(t, append([]byte(p.Bytes), byte(c)), want)
		}
	}
	if n != halves+places {
		t.Errorf("%d scalars have a place, want %d", n, halves+places)
	}
}

// TestState: it is always the zero one, with errors and without.
func TestState(t *testing.T) {
	for n := range 1 << 16 {
		for _, b := range [][]byte{{byte(n >> 8), byte(n)}, {byte(n)}} {
			if g := sjis.Get(b); g.S != (api.State{}) || g.B != 0 {
				t.Fatalf("Get(% X) = %+v", b, g)
			}
		}
		if p := sjis.Set(rune(n)); p.S != (api.State{}) {
			t.Fatalf("Set(%X) = %s", n, told(p))
		}
	}
}

// TestRows is promise 18.3: scalars that are written one behind the other are read as these, to the last byte.
func TestRows(t *testing.T) {
	r := rand.New(rand.NewPCG(18, 3))
	var all []rune
	for u := range newModel(t).units {
		all = append(all, u)
	}
	slices.Sort(all)
	for range 5000 {
		var b []byte
		var want, got []rune
		for range r.IntN(12) {
			u := all[r.IntN(len(all))]
			b, want = append(b, sjis.Set(u).Bytes...), append(want, u)
		}
		for whole := b; len(b) > 0; {
			g := sjis.Get(b)
			if g.Err != api.OK {
				t.Fatalf("Get of % X, of % X = %+v", b, whole, g)
			}
			b, got = b[g.N:], append(got, g.A)
		}
		if !slices.Equal(got, want) {
			t.Errorf("%X are read as %X", want, got)
		}
	}
}

// TestAnyBytes is promise 18.2: any bytes, none taken beyond two or beyond the end.
func TestAnyBytes(t *testing.T) {
	r := rand.New(rand.NewPCG(18, 2))
	m := newModel(t)
	for range 200000 {
		b := make([]byte, r.IntN(6))
		for i := range b {
			b[i] = byte(r.Uint32())
		}
		g := sjis.Get(b)
		if want := m.wantGet(b); g != want {
			t.Fatalf("Get(% X) = %+v, want %+v", b, g, want)
		}
		if g.N < 0 || g.N > 2 || g.N > len(b) || (g.Err == api.More) != (g.N == 0) {
			t.Errorf("Get(% X) takes %d", b, g.N)
		}
	}
}
