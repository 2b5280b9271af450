package trie_test

import (
	"fmt"
	"math"
	"math/rand/v2"
	"slices"
	"strconv"
	"testing"

	"dragoman/api"
	"dragoman/ranges"
	"dragoman/trie"
)

const (
	top  = 1<<24 - 1 // the greatest code
	most = 65536     // as many pairs as a list may have
)

// isScalar says it in the document's words, apart from the program.
func isScalar(u rune) bool { return 0 <= u && u < 0xD800 || 0xDFFF < u && u < 0x110000 }

// wantNew is the error that New answers by the document.
func wantNew(l []api.Pair) api.Errno {
	if len(l) > most {
		return api.ErrLong
	}
	for i, p := range l {
		if p.Code < 0 || p.Code > top || !isScalar(p.Scalar) || i > 0 && l[i-1].Code >= p.Code {
			return api.ErrField
		}
	}
	return api.OK
}

// model is a table by the document's words, apart from the program.
type model struct {
	scalarOf                 map[int]rune
	codeOf                   map[rune]int
	ofCodes, ofScalars       int // how many different contents there are
	codeBlocks, scalarBlocks int // how many blocks there are with any content
}

// modelOf is the model of a right list: contents are told in words, place by place, and those words are counted.
func modelOf(l []api.Pair) model {
	m := model{scalarOf: map[int]rune{}, codeOf: map[rune]int{}}
	for _, p := range l {
		m.scalarOf[p.Code] = p.Scalar
		if c, ok := m.codeOf[p.Scalar]; !ok || p.Code < c {
			m.codeOf[p.Scalar] = p.Code
		}
	}
	words := map[int][]byte{}
	for _, p := range l {
		words[p.Code>>6] = tell(words[p.Code>>6], p.Code&63, int(p.Scalar))
	}
	m.codeBlocks, m.ofCodes = len(words), different(words)
	scalars := make([]rune, 0, len(m.codeOf))
	for u := range m.codeOf {
		scalars = append(scalars, u)
	}
	slices.Sort(scalars)
	words = map[int][]byte{}
	for _, u := range scalars {
		words[int(u>>6)] = tell(words[int(u>>6)], int(u&63), m.codeOf[u])
	}
	m.scalarBlocks, m.ofScalars = len(words), different(words)
	return m
}

// tell goes on with a content's words by what stands at a place.
func tell(words []byte, place, what int) []byte {
	words = append(strconv.AppendInt(words, int64(place), 10), ':')
	return append(strconv.AppendInt(words, int64(what), 10), ' ')
}

func different(words map[int][]byte) int {
	kinds := map[string]bool{}
	for _, w := range words {
		kinds[string(w)] = true
	}
	return len(kinds)
}

// edgeCodes are numbers at which Scalar is asked of every table: what is no code, what stands beside that, and what is alike in its lowest bits.
var edgeCodes = []int{
	math.MinInt, math.MinInt + 1, math.MinInt + 64, math.MinInt + 65, -1 << 32, -1<<32 + 1, math.MinInt32, -1 << 24, -1<<24 + 1, -65536, -128, -127, -65, -64, -63, -2, -1,
	0, 1, 2, 62, 63, 64, 65, 126, 127, 128, 129, 4095, 4096, 65535, 65536, 65537,
	top - 65, top - 64, top - 63, top - 1, top, top + 1, top + 2, top + 64, top + 65, 1<<24 + 65, 1<<25 + 1,
	math.MaxInt32, 1 << 31, 1<<31 + 1, 1 << 32, 1<<32 + 1, 1<<32 + 64, 1<<38 + 1, math.MaxInt - 63, math.MaxInt,
}

// edgeScalars are such numbers for Code.
var edgeScalars = []rune{
	math.MinInt32, math.MinInt32 + 'A', math.MinInt32 + 64, -0x110000, -0x10FFFF, -0x10000, -'A', -128, -65, -64, -63, -2, -1,
	0, 1, 2, 0x3E, 0x3F, 0x40, 'A', 'B', 0x7E, 0x7F, 0x80, 0x81, 0xFF, 0x100, 0x100 + 'A',
	0xD7BF, 0xD7C0, 0xD7FE, 0xD7FF, 0xD800, 0xD801, 0xD83F, 0xD840, 0xDBFF, 0xDC00, 0xDFC0, 0xDFFF, 0xE000, 0xE001, 0xE03F, 0xE040,
	0xFFFC, 0xFFFD, 0xFFFE, 0xFFFF, 0x10000, 0x10000 + 'A', 0x10FFBF, 0x10FFC0, 0x10FFFE, 0x10FFFF, 0x110000, 0x110001, 0x11003F, 0x110040, 0x110000 + 'A',
	0x200000 + 'A', 0x1000000 + 'A', math.MaxInt32 - 1, math.MaxInt32,
}

// short tells a list without filling the screen.
func short(l []api.Pair) string {
	if len(l) > 8 {
		return fmt.Sprintf("%X .. (%d)", l[:8], len(l))
	}
	return fmt.Sprintf("%X", l)
}

func checkError(t *testing.T, l []api.Pair, want api.Errno) {
	t.Helper()
	if x, e := trie.New(l); x != nil || e != want {
		t.Fatalf("New of %s: %v, error %d, want none, error %d", short(l), x != nil, e, want)
	}
	if table, e := ranges.Pack(l); table != nil || e != want {
		t.Fatalf("Pack of %s: %d ranges, error %d, want none, error %d", short(l), len(table), e, want)
	}
}

// held is a table, what it is held against, and the ranges of the same pairs.
type held struct {
	t     *testing.T
	l     []api.Pair
	x     *trie.Trie
	m     model
	table []api.Range
}

func hold(t *testing.T, l []api.Pair) held {
	t.Helper()
	x, e := trie.New(l)
	if x == nil || e != api.OK {
		t.Fatalf("New of %s: %v, error %d", short(l), x != nil, e)
	}
	table, e := ranges.Pack(l)
	if e != api.OK {
		t.Fatalf("Pack of %s: error %d", short(l), e)
	}
	h := held{t, l, x, modelOf(l), table}
	a, b := x.Blocks()
	if a != h.m.ofCodes || b != h.m.ofScalars {
		t.Fatalf("%s: Blocks %d, %d, want %d, %d", short(l), a, b, h.m.ofCodes, h.m.ofScalars)
	}
	// Promise 8.3, and what follows for scalars: as a code stands for one scalar alone, no two blocks of them are the same.
	if a > len(l) || b > len(l) || a > h.m.codeBlocks || b != h.m.scalarBlocks {
		t.Fatalf("%s: Blocks %d, %d, of %d pairs", short(l), a, b, len(l))
	}
	return h
}

func (h held) scalar(code int) {
	want, wantOK := h.m.scalarOf[code]
	if u, ok := h.x.Scalar(code); u != want || ok != wantOK {
		h.t.Fatalf("%s: Scalar of %X: %X, %v, want %X, %v", short(h.l), code, u, ok, want, wantOK)
	}
	if u, ok := ranges.Scalar(h.table, code); u != want || ok != wantOK {
		h.t.Fatalf("%s: ranges tell of %X: %X, %v, want %X, %v", short(h.l), code, u, ok, want, wantOK)
	}
}

func (h held) code(u rune) {
	want, wantOK := h.m.codeOf[u]
	if code, ok := h.x.Code(u); code != want || ok != wantOK {
		h.t.Fatalf("%s: Code of %X: %X, %v, want %X, %v", short(h.l), u, code, ok, want, wantOK)
	}
	// Ranges are gone through one by one, so very many of them aren't asked each time.
	if len(h.table) > 1000 && u%1024 != 0 {
		return
	}
	if code, ok := ranges.Code(h.table, u); code != want || ok != wantOK {
		h.t.Fatalf("%s: ranges tell of %X: %X, %v, want %X, %v", short(h.l), u, code, ok, want, wantOK)
	}
}

// check holds a table at its codes and scalars, at those beside them and a block away, at both ends of their blocks, and at the edges.
func check(t *testing.T, l []api.Pair) held {
	t.Helper()
	h := hold(t, l)
	for _, p := range l {
		for _, c := range around(p.Code) {
			h.scalar(c)
		}
	}
	for u := range h.m.codeOf {
		for _, c := range around(int(u)) {
			h.code(rune(c))
		}
	}
	for _, code := range edgeCodes {
		h.scalar(code)
	}
	for _, u := range edgeScalars {
		h.code(u)
	}
	return h
}

func around(n int) []int {
	first := n - n%64
	return []int{n, n - 1, n + 1, n - 64, n + 64, first - 1, first, first + 63, first + 64, n + 1<<24, n - 1<<24}
}

// run are n pairs from code and u on, both rising by steps.
func run(n, code, codeStep int, u, step rune) []api.Pair {
	l := make([]api.Pair, n)
	for i := range l {
		l[i] = api.Pair{Code: code + i*codeStep, Scalar: u + rune(i)*step}
	}
	return l
}

// of are pairs, out of a code and a scalar in turn.
func of(numbers ...int) (l []api.Pair) {
	for i := 0; i < len(numbers); i += 2 {
		l = append(l, api.Pair{Code: numbers[i], Scalar: rune(numbers[i+1])})
	}
	return l
}

// TestExample: the chapter's.
func TestExample(t *testing.T) {
	h := check(t, of(0, 'A', 1, 'B', 64, 'A', 65, 'B'))
	if a, b := h.x.Blocks(); a != 1 || b != 1 {
		t.Errorf("Blocks %d, %d", a, b)
	}
	if u, ok := h.x.Scalar(65); u != 'B' || !ok {
		t.Errorf("Scalar of 65: %X, %v", u, ok)
	}
	if c, ok := h.x.Code('B'); c != 1 || !ok {
		t.Errorf("Code of B: %d, %v", c, ok)
	}
	if u, ok := h.x.Scalar(2); u != 0 || ok {
		t.Errorf("Scalar of 2: %X, %v", u, ok)
	}
}

// Promise 8.1, New.

// TestNoPairs: of the list without any there is a table too; nothing stands in it.
func TestNoPairs(t *testing.T) {
	for _, l := range [][]api.Pair{nil, {}, make([]api.Pair, 3)[:0]} {
		h := check(t, l)
		if a, b := h.x.Blocks(); a != 0 || b != 0 {
			t.Errorf("Blocks %d, %d", a, b)
		}
		for n := -200; n < 200; n++ {
			if u, ok := h.x.Scalar(n); u != 0 || ok {
				t.Errorf("Scalar of %d: %X, %v", n, u, ok)
			}
			if c, ok := h.x.Code(rune(n)); c != 0 || ok {
				t.Errorf("Code of %d: %X, %v", n, c, ok)
			}
		}
	}
}

// full are right lists of just as many pairs as may be: side by side and far apart, at either end, with all scalars different and all the same.
func full() map[string][]api.Pair {
	apart := make([]api.Pair, most)
	back := make([]api.Pair, most)
	for i := range apart {
		apart[i] = api.Pair{Code: i*256 + i%64, Scalar: scalarOf(i * 16)}
		back[i] = api.Pair{Code: 2*i + 5, Scalar: 0x10FFFF - rune(i)}
	}
	return map[string][]api.Pair{
		"side by side":       run(most, 0, 1, 0x10000, 1),
		"at the top":         run(most, top-most+1, 1, 0x100000, 1),
		"one scalar":         run(most, 0, 1, 'A', 0),
		"one scalar apart":   run(most, 0, 64, 0x10FFFF, 0),
		"each block its own": apart,
		"scalars fall":       back,
	}
}

// scalarOf is the nth scalar of all.
func scalarOf(n int) rune {
	if n < 0xD800 {
		return rune(n)
	}
	return rune(n + 0x800)
}

// TestAsManyAsMayBe: a full list has a table; with one pair more, and with many more, it is too long.
func TestAsManyAsMayBe(t *testing.T) {
	for name, l := range full() {
		t.Run(name, func(t *testing.T) {
			check(t, l)
			check(t, l[:most-1])
			shift := slices.Clone(l)
			if shift[most-1].Code == top {
				for i := range shift {
					shift[i].Code--
				}
			}
			long := append(shift, api.Pair{Code: shift[most-1].Code + 1, Scalar: 'A'})
			checkError(t, long, api.ErrLong)
			if wantNew(long[1:]) != api.OK {
				t.Fatal("the test's own list is wrong")
			}
		})
	}
	for _, n := range []int{most + 1, most + 2, 2 * most, 1<<20 + 1, 1 << 22} {
		checkError(t, run(n, 0, 1, 'A', 0), api.ErrLong)
	}
}

// wrong are pairs that no right list has, wherever they stand.
var wrong = []api.Pair{
	{Code: -1, Scalar: 'A'}, {Code: -64, Scalar: 'A'}, {Code: math.MinInt, Scalar: 'A'}, {Code: -1 << 32, Scalar: 'A'},
	{Code: top + 1, Scalar: 'A'}, {Code: top + 64, Scalar: 'A'}, {Code: 1 << 32, Scalar: 'A'}, {Code: 1<<32 + 100, Scalar: 'A'}, {Code: math.MaxInt, Scalar: 'A'},
	{Code: 100, Scalar: -1}, {Code: 100, Scalar: math.MinInt32}, {Code: 100, Scalar: -0x110000}, {Code: 100, Scalar: 0xD800}, {Code: 100, Scalar: 0xDBFF}, {Code: 100, Scalar: 0xDC00}, {Code: 100, Scalar: 0xDFFF},
	{Code: 100, Scalar: 0x110000}, {Code: 100, Scalar: 0x110001}, {Code: 100, Scalar: math.MaxInt32},
	{Code: -1, Scalar: -1}, {Code: top + 1, Scalar: 0x110000},
}

// TestWrongPairs: one that is wrong, alone and ahead of, between and behind right ones.
func TestWrongPairs(t *testing.T) {
	ahead, behind := of(0, 'A', 99, 'B'), of(101, 'A', top, 'B')
	for _, p := range wrong {
		one := []api.Pair{p}
		for _, l := range [][]api.Pair{one, slices.Concat(ahead, one), slices.Concat(one, behind), slices.Concat(ahead, one, behind)} {
			checkError(t, l, api.ErrField)
		}
	}
	for _, u := range []rune{0, 0xD7FF, 0xE000, 0x10FFFF} {
		check(t, slices.Concat(ahead, []api.Pair{{Code: 100, Scalar: u}}, behind))
	}
}

// TestOrderOfCodes: two codes that are the same or fall, in one block and in different ones, whatever their scalars are.
func TestOrderOfCodes(t *testing.T) {
	codes := []int{0, 1, 62, 63, 64, 65, 127, 128, 4096, top - 64, top - 1, top}
	for _, a := range codes {
		for _, b := range codes {
			for _, u := range []int{'@', 'A', 'B', 0x20AC} {
				for _, l := range [][]api.Pair{of(a, 'A', b, u), of(5, 'C', a, 'A', b, u), of(a, 'A', b, u, top-5, 'C')} {
					if want := wantNew(l); want != api.OK {
						checkError(t, l, want)
					} else {
						check(t, l)
					}
				}
			}
		}
	}
	checkError(t, of(5, 'A', 5, 'A'), api.ErrField)
	checkError(t, of(64, 'A', 0, 'B'), api.ErrField)
	checkError(t, of(0, 'A', 2, 'B', 1, 'C'), api.ErrField)
	checkError(t, make([]api.Pair, 2), api.ErrField)
	checkError(t, make([]api.Pair, most), api.ErrField)
}

// TestLongAndWrong: too many stands ahead of what else is wrong; in a list that is just not too long that is told, wherever it is.
func TestLongAndWrong(t *testing.T) {
	faults := append(slices.Clone(wrong), api.Pair{Code: 1000, Scalar: 'A'})
	for _, p := range faults {
		for _, at := range []int{0, 1, 100, most / 2, most - 1} {
			for _, n := range []int{most, most + 1} {
				l := run(n, 10, 2, 'A', 0)
				l[at] = p
				want := api.ErrField
				if n > most {
					want = api.ErrLong
				}
				checkError(t, l, want)
			}
		}
		// The fault is in the very pair that is too many.
		checkError(t, append(run(most, 10, 2, 'A', 0), p), api.ErrLong)
	}
	checkError(t, make([]api.Pair, most+1), api.ErrLong)
}

// Promise 8.1, Scalar and Code.

// TestEdges: all lists of up to two out of edge pairs: the table, or the error.
func TestEdges(t *testing.T) {
	var all []api.Pair
	for _, code := range []int{-1, 0, 1, 63, 64, 65, 127, 128, top - 64, top - 63, top, top + 1} {
		for _, u := range []rune{-1, 0, 1, 0x3F, 0x40, 'A', 0xD7FF, 0xD800, 0xDFFF, 0xE000, 0x10FFC0, 0x10FFFF, 0x110000} {
			all = append(all, api.Pair{Code: code, Scalar: u})
		}
	}
	try := func(l []api.Pair) {
		if want := wantNew(l); want != api.OK {
			checkError(t, l, want)
			return
		}
		check(t, l)
	}
	for _, p := range all {
		try([]api.Pair{p})
		for _, q := range all {
			try([]api.Pair{p, q})
		}
	}
}

// TestPlaces: a pair alone, at each place of some blocks of codes and of scalars; nothing else around stands for anything.
func TestPlaces(t *testing.T) {
	for _, block := range []int{0, 1, 2, 1023, 0xD7C0 / 64, 0xE000 / 64, 0x10FFC0 / 64} {
		for place := range 64 {
			n := block*64 + place
			for _, p := range []api.Pair{{Code: n, Scalar: 'A'}, {Code: 7, Scalar: rune(n)}, {Code: n, Scalar: rune(n)}} {
				h := check(t, []api.Pair{p})
				if a, b := h.x.Blocks(); a != 1 || b != 1 {
					t.Fatalf("%X: Blocks %d, %d", p, a, b)
				}
				for d := -130; d <= 130; d++ {
					h.scalar(p.Code + d)
					h.code(p.Scalar + rune(d))
				}
			}
		}
	}
	for place := range 64 {
		h := check(t, of(top-place, 0x10FFFF-place))
		for d := -130; d <= 130; d++ {
			h.scalar(top - place + d)
			h.code(rune(0x10FFFF - place + d))
		}
	}
}

// TestNoughts: the code 0 and the scalar U+0000 are told apart from a place where nothing stands.
func TestNoughts(t *testing.T) {
	for _, c := range []struct {
		l               []api.Pair
		u               rune // of code 0
		code            int  // of U+0000
		hasU, hasCode   bool
		blocks, blocks2 int
	}{
		{of(0, 0), 0, 0, true, true, 1, 1},
		{of(0, 0, 1, 1), 0, 0, true, true, 1, 1},
		{of(0, 1), 1, 0, true, false, 1, 1},
		{of(1, 0), 0, 1, false, true, 1, 1},
		{of(1, 1), 0, 0, false, false, 1, 1},
		{of(0, 1, 1, 0), 1, 1, true, true, 1, 1},
		{of(0, 0, 1, 0, 64, 0), 0, 0, true, true, 2, 1},
		{of(64, 0, 128, 0), 0, 64, false, true, 1, 1},
		{of(0, 'A', 64, 0), 'A', 64, true, true, 2, 2},
		{of(0, 'A', 1, 0), 'A', 1, true, true, 1, 2},
		{of(0, 0, top, 0x10FFFF), 0, 0, true, true, 2, 2},
	} {
		h := check(t, c.l)
		if u, ok := h.x.Scalar(0); u != c.u || ok != c.hasU {
			t.Errorf("%X: Scalar of 0: %X, %v", c.l, u, ok)
		}
		if code, ok := h.x.Code(0); code != c.code || ok != c.hasCode {
			t.Errorf("%X: Code of 0: %X, %v", c.l, code, ok)
		}
		if a, b := h.x.Blocks(); a != c.blocks || b != c.blocks2 {
			t.Errorf("%X: Blocks %d, %d", c.l, a, b)
		}
	}
	// All of a block's other places are free, or all are filled.
	for place := range 64 {
		check(t, of(place, 0))
		check(t, slices.Delete(run(64, 0, 1, 0, 1), place, place+1))
		check(t, slices.Delete(run(64, 0, 1, 0, 0), place, place+1))
		check(t, slices.Delete(run(64, 0, 1, 63, -1), place, place+1))
	}
}

// TestLeastCode: which of several codes Code tells, where they are in one block, in some and in all.
func TestLeastCode(t *testing.T) {
	for _, c := range []struct {
		l    []api.Pair
		want int
	}{
		{of(0, 'A', 1, 'A'), 0},
		{of(5, 'A', 6, 'A', 63, 'A'), 5},
		{of(63, 'A', 64, 'A'), 63},
		{of(63, 'A', 64, 'B', 65, 'A'), 63},
		{of(1, 'B', 65, 'A', 128, 'A', 129, 'A'), 65},
		{of(70, 'A', top, 'A'), 70},
		{of(1, 'B', 2, 'A', 3, 'B', 4, 'A'), 2},
		{of(1, 0x10FFFF, 2, 0, 3, 'A', 4, 0, 5, 0x10FFFF, 6, 'A'), 3},
		{of(top-1, 'A', top, 'A'), top - 1},
		{append(run(1000, 0, 1, 'B', 0), run(1000, 1000, 1, 'A', 0)...), 1000},
		{append(run(1000, 0, 64, 'B', 0), run(1000, 64000, 64, 'A', 0)...), 64000},
	} {
		h := check(t, c.l)
		if code, ok := h.x.Code('A'); code != c.want || !ok {
			t.Errorf("%s: Code of A: %d, %v, want %d", short(c.l), code, ok, c.want)
		}
		for _, p := range c.l {
			if u, ok := h.x.Scalar(p.Code); u != p.Scalar || !ok {
				t.Errorf("%s: Scalar of %d: %X, %v", short(c.l), p.Code, u, ok)
			}
		}
	}
	// Many scalars in turn, so that each has many codes, which are not in its own order.
	for _, n := range []rune{2, 3, 7, 63, 64, 65, 1000} {
		l := run(5000, 3, 1, 0, 0)
		for i := range l {
			l[i].Scalar = 0x3000 + (rune(i)*5+3)%n
		}
		check(t, l)
	}
}

// TestNoCodes: numbers that are alike a code in their lowest bits are none, and stand for nothing.
func TestNoCodes(t *testing.T) {
	for _, l := range [][]api.Pair{run(256, 0, 1, 'A', 1), run(300, top-299, 1, 'A', 1), of(0, 'A', top, 'B'), run(1000, 1, 67, 'A', 2)} {
		h := check(t, l)
		for bit := 24; bit < 64; bit++ {
			for _, p := range l {
				for _, code := range []int{p.Code + 1<<bit, p.Code - 1<<bit, p.Code ^ 1<<bit, ^p.Code, -p.Code - 1} {
					h.scalar(code)
					if u, ok := h.x.Scalar(code); u != 0 || ok {
						t.Fatalf("%s: Scalar of %X: %X, %v", short(l), code, u, ok)
					}
				}
			}
		}
	}
}

// TestNoScalars: surrogates, what is below 0 and what is above 10FFFF have no code, also where all about them have.
func TestNoScalars(t *testing.T) {
	for _, l := range [][]api.Pair{
		run(256, 9, 1, 0, 1),
		append(run(1024, 0, 1, 0xD400, 1), run(1024, 1024, 1, 0xE000, 1)...),
		append(run(1024, 0, 1, 0x10FC00, 1), run(1024, 1024, 1, 0, 1)...),
	} {
		h := check(t, l)
		none := func(u rune) {
			h.code(u)
			if code, ok := h.x.Code(u); code != 0 || ok {
				t.Fatalf("%s: Code of %X: %X, %v", short(l), u, code, ok)
			}
		}
		for u := rune(0xD800); u < 0xE000; u++ {
			none(u)
		}
		for n := range rune(0x2000) {
			none(-1 - n)
			none(0x110000 + n)
			none(math.MinInt32 + n)
			none(math.MaxInt32 - n)
		}
		for _, p := range l {
			for bit := 21; bit < 32; bit++ {
				none(int32(uint32(p.Scalar) | 1<<bit))
			}
		}
	}
}

// TestEveryScalar: every scalar has its code in some table.
func TestEveryScalar(t *testing.T) {
	for from := 0; from < 0x110000-0x800; from += most {
		n := min(most, 0x110000-0x800-from)
		l := make([]api.Pair, n)
		for i := range l {
			// The places of codes and scalars in their blocks differ from table to table.
			l[i] = api.Pair{Code: i + from/most, Scalar: scalarOf(from + i)}
		}
		x, e := trie.New(l)
		if e != api.OK {
			t.Fatalf("error %d", e)
		}
		for _, p := range l {
			if u, ok := x.Scalar(p.Code); u != p.Scalar || !ok {
				t.Fatalf("Scalar of %X: %X, %v, want %X", p.Code, u, ok, p.Scalar)
			}
			if code, ok := x.Code(p.Scalar); code != p.Code || !ok {
				t.Fatalf("Code of %X: %X, %v, want %X", p.Scalar, code, ok, p.Code)
			}
		}
	}
}

// TestEveryCode: every code has its scalar in some table.
func TestEveryCode(t *testing.T) {
	for from := 0; from <= top; from += most {
		l := run(most, from, 1, 0x10000+rune(from/most)*0xF00, 1)
		x, e := trie.New(l)
		if e != api.OK {
			t.Fatalf("error %d", e)
		}
		if a, b := x.Blocks(); a != 1024 || b != 1024 {
			t.Fatalf("from %X: Blocks %d, %d", from, a, b)
		}
		for _, p := range l {
			if u, ok := x.Scalar(p.Code); u != p.Scalar || !ok {
				t.Fatalf("Scalar of %X: %X, %v, want %X", p.Code, u, ok, p.Scalar)
			}
		}
		for _, p := range []api.Pair{l[0], l[1], l[63], l[64], l[most/2], l[most-1]} {
			if code, ok := x.Code(p.Scalar); code != p.Code || !ok {
				t.Fatalf("Code of %X: %X, %v, want %X", p.Scalar, code, ok, p.Code)
			}
		}
		for _, code := range []int{from - 64, from - 1, from + most, from + most + 63} {
			if u, ok := x.Scalar(code); u != 0 || ok {
				t.Fatalf("Scalar of %X: %X, %v", code, u, ok)
			}
		}
	}
}

// Promise 8.2.

// TestBlocks: some lists, with their numbers written out.
func TestBlocks(t *testing.T) {
	for name, c := range map[string]struct {
		l    []api.Pair
		a, b int
	}{
		"none":                             {nil, 0, 0},
		"one":                              {of(0, 'A'), 1, 1},
		"one far off":                      {of(top, 0x10FFFF), 1, 1},
		"both ends of a block":             {of(0, 0x40, 63, 0x7F), 1, 1},
		"over the end of a block":          {of(63, 0x3F, 64, 0x40), 2, 2},
		"a block whole":                    {run(64, 64, 1, 0x40, 1), 1, 1},
		"a block and one behind":           {run(65, 64, 1, 0x40, 1), 2, 2},
		"a block and one ahead":            {run(65, 63, 1, 0x3F, 1), 2, 2},
		"two blocks by three":              {run(128, 1, 1, 0x42, 1), 3, 3},
		"one scalar in a block":            {run(64, 0, 1, 'A', 0), 1, 1},
		"one scalar in many blocks":        {run(6400, 0, 1, 'A', 0), 1, 1},
		"one scalar, the last block short": {run(6399, 0, 1, 'A', 0), 2, 1},
		"the same at the same place":       {of(5, 'A', 69, 'A', 133, 'A'), 1, 1},
		"the same far apart":               {of(5, 'A', top-58, 'A'), 1, 1},
		"the same at other places":         {of(5, 'A', 70, 'A', 132, 'A'), 3, 1},
		"turned round":                     {of(0, 'A', 1, 'B', 64, 'B', 65, 'A'), 2, 1},
		"moved by one":                     {of(0, 'A', 1, 'B', 65, 'A', 66, 'B'), 2, 1},
		"another scalar":                   {of(0, 'A', 64, 'B'), 2, 1},
		"another block of scalars":         {of(0, 0x7F, 64, 0x80), 2, 2},
		"one more":                         {of(0, 'A', 64, 'A', 65, 'B'), 2, 1},
		"the same twice, and two more":     {of(0, 'A', 64, 'B', 128, 'A', 192, 'B', 256, 'C'), 3, 1},
		"a gap between":                    {of(0, 'A', 640, 'A', 6400, 'A'), 1, 1},
		"scalars alike but for the block":  {of(0, 0x41, 1, 0x81, 2, 0xC1), 1, 3},
		"codes alike but for the block":    {of(1, 0x41, 65, 0x81, 129, 0xC1), 3, 3},
		"codes of 2^16 and scalars alike":  {of(1, 0x41, 65537, 0x10041), 2, 2},
		"a lesser code elsewhere":          {of(0, 'A', 1, 'B', 64, 'A', 65, 0x81), 2, 2},
		"lesser codes of all":              {append(run(64, 0, 1, 0x40, 1), run(64, 64, 1, 0x7F, -1)...), 2, 1},
		"U+0000 and nothing":               {of(0, 0, 1, 'A', 65, 'A'), 2, 2},
		"U+0000 thrice":                    {of(3, 0, 67, 0, 131, 0), 1, 1},
	} {
		h := check(t, c.l)
		if a, b := h.x.Blocks(); a != c.a || b != c.b {
			t.Errorf("%s: Blocks %d, %d, want %d, %d", name, a, b, c.a, c.b)
		}
	}
}

// free is a place where nothing stands.
const free = -1

// pieces is a list in which block after block has the scalars of a piece.
func pieces(all ...[]rune) (l []api.Pair) {
	for block, piece := range all {
		for place, u := range piece {
			if u != free {
				l = append(l, api.Pair{Code: block*64 + place, Scalar: u})
			}
		}
	}
	return l
}

// fill is a whole block's scalars, from u on.
func fill(u, step rune) []rune {
	l := make([]rune, 64)
	for i := range l {
		l[i] = u + rune(i)*step
	}
	return l
}

// with is a block's scalars with another one at a place.
func with(l []rune, place int, u rune) []rune {
	l = slices.Clone(l)
	l[place] = u
	return l
}

func checkPieces(t *testing.T, want int, all ...[]rune) {
	t.Helper()
	h := check(t, pieces(all...))
	if a, _ := h.x.Blocks(); a != want {
		t.Fatalf("%X: Blocks %d, want %d", all, a, want)
	}
}

// TestOnePlace: contents that differ at one place alone, by another scalar, by a place that is free and by U+0000; beside them the same ones once more.
func TestOnePlace(t *testing.T) {
	for place := range 64 {
		for _, base := range [][]rune{fill('B', 1), fill('B', 0), fill(0x10FFFF, 0), fill(0x3000, 64)} {
			checkPieces(t, 1, base, base)
			for _, u := range []rune{base[place] - 1, 0, 1, 0x8000, free} {
				other := with(base, place, u)
				checkPieces(t, 2, base, other)
				checkPieces(t, 2, other, base)
				checkPieces(t, 2, base, other, base, other, other, base)
			}
			checkPieces(t, 6, base, with(base, place, 0), with(base, place, 1), with(base, place, 2), with(base, place, 0x8000), with(base, place, free))
		}
		// A block with this place alone, beside the one without any content, which does not count.
		nothing := fill(free, 0)
		for _, u := range []rune{0, 1, 'A', 0x10FFFF} {
			alone := with(nothing, place, u)
			checkPieces(t, 1, alone)
			checkPieces(t, 1, nothing, alone)
			checkPieces(t, 1, alone, nothing, alone)
			checkPieces(t, 2, alone, nothing, with(alone, 63-place, 'Z'))
		}
	}
}

// TestOtherPlaces: the same scalars at other places of the block: every one alone, and whole blocks that are turned.
func TestOtherPlaces(t *testing.T) {
	var alone, turned [][]rune
	for place := range 64 {
		alone = append(alone, with(fill(free, 0), place, 'A'))
		base := fill(0x40, 1)
		turned = append(turned, append(base[place:], base[:place]...))
	}
	for n := 1; n <= 64; n++ {
		checkPieces(t, n, alone[:n]...)
		checkPieces(t, n, turned[:n]...)
		checkPieces(t, n, slices.Concat(alone[:n], alone[:n])...)
		checkPieces(t, n, slices.Concat(turned[:n], turned[:n], turned[:1])...)
	}
}

// TestLesserElsewhere: scalars of a block whose least codes are in blocks far off, and which stand again in nearer ones: only least codes are its content.
func TestLesserElsewhere(t *testing.T) {
	for n := 1; n <= 64; n++ {
		least := run(n, 1000, 77, 0x40, 1)
		again := run(64, 100000, 1, 0x40, 1)
		h := check(t, append(least, again...))
		for i, p := range least {
			if code, ok := h.x.Code(p.Scalar); code != p.Code || !ok {
				t.Fatalf("Code of %X: %d, %v, want %d", p.Scalar, code, ok, least[i].Code)
			}
		}
		for _, p := range again[n:] {
			if code, ok := h.x.Code(p.Scalar); code != p.Code || !ok {
				t.Fatalf("Code of %X: %d, %v, want %d", p.Scalar, code, ok, p.Code)
			}
		}
		if _, b := h.x.Blocks(); b != 1 {
			t.Fatalf("Blocks of scalars: %d", b)
		}
	}
	// Where every scalar of the second block of codes stands in the first one, too, its codes are in no block of scalars.
	h := check(t, pieces(fill(0x40, 1), fill(0x7F, -1), fill(0x40, 1)))
	if a, b := h.x.Blocks(); a != 2 || b != 1 {
		t.Errorf("Blocks %d, %d", a, b)
	}
}

// TestManyBlocks: as many different contents as a list has room for, and the same ones again and again.
func TestManyBlocks(t *testing.T) {
	apart := full()["each block its own"]
	same, some := slices.Clone(apart), slices.Clone(apart)
	for i := range same {
		same[i] = api.Pair{Code: i*256 + 9, Scalar: 0x10FFFF}
		some[i] = api.Pair{Code: i*256 + i%64, Scalar: 0x4E00 + rune(i%3)}
	}
	for name, c := range map[string]struct {
		l    []api.Pair
		a, b int
	}{
		// Every fourth scalar of a block, so that there are four times as few.
		"each its own": {apart, most, most / 4},
		"all one":      {same, 1, 1},
		"by turns":     {some, 3 * 64, 1},
	} {
		x, e := trie.New(c.l)
		if e != api.OK {
			t.Fatalf("%s: error %d", name, e)
		}
		if a, b := x.Blocks(); a != c.a || b != c.b {
			t.Errorf("%s: Blocks %d, %d, want %d, %d", name, a, b, c.a, c.b)
		}
	}
}

// TestSmallTables: all tables over two places of three blocks, each with one of five scalars or nothing; and over one block's places.
func TestSmallTables(t *testing.T) {
	for _, codes := range [][]int{{0, 63, 64, 127, 128, 191}, {0, 1, 2, 62, 63, 64}, {63, 127, 191, 255, 319, 383}} {
		for _, scalars := range [][]rune{{0, 1, 0x3F, 0x40, 0x80}, {'A', 'B', 0x40, 0x7F, 0}} {
			for number := range 6 * 6 * 6 * 6 * 6 * 6 {
				var l []api.Pair
				for _, code := range codes {
					if at := number % 6; at < len(scalars) {
						l = append(l, api.Pair{Code: code, Scalar: scalars[at]})
					}
					number /= 6
				}
				h := hold(t, l)
				for _, code := range codes {
					h.scalar(code - 1)
					h.scalar(code)
					h.scalar(code + 1)
				}
				for _, u := range scalars {
					h.code(u - 1)
					h.code(u)
					h.code(u + 1)
				}
			}
		}
	}
}

// randomList is a right list of up to n pairs; its scalars are of few sorts or of many, and some blocks are as one ahead of them.
func randomList(r *rand.Rand, n int) (l []api.Pair) {
	sorts := []rune{1, 3, 100, 5000, 0x110000}[r.IntN(5)]
	gap := []int{1, 2, 70, 300, 20000}[r.IntN(5)]
	code := r.IntN(3 * gap)
	for range n {
		if code > top {
			break
		}
		u := r.Int32N(sorts)
		if was := code - 64*(1+r.IntN(3)); r.IntN(3) > 0 {
			if i, ok := slices.BinarySearchFunc(l, was, func(p api.Pair, code int) int { return p.Code - code }); ok {
				u = l[i].Scalar
			}
		}
		if isScalar(u) {
			l = append(l, api.Pair{Code: code, Scalar: u})
		}
		code += 1 + r.IntN(gap)
	}
	return l
}

// TestRandomTables: short ones and long ones.
func TestRandomTables(t *testing.T) {
	r := rand.New(rand.NewPCG(8, 2))
	for n := range 1500 {
		check(t, randomList(r, n%400))
	}
	for range 10 {
		check(t, randomList(r, most))
	}
}

// Promise 8.3.

// TestRanges: at every code and scalar about, a table tells what the ranges of its pairs tell.
func TestRanges(t *testing.T) {
	r := rand.New(rand.NewPCG(8, 3))
	for n := range 300 {
		l := randomList(r, 1+n%60)
		x, _ := trie.New(l)
		table, e := ranges.Pack(l)
		if x == nil || e != api.OK {
			t.Fatalf("%s: no table, or error %d", short(l), e)
		}
		for code := -200; code < 2000; code++ {
			u, ok := x.Scalar(code)
			if v, has := ranges.Scalar(table, code); u != v || ok != has {
				t.Fatalf("%s: Scalar of %X: %X, %v, of ranges %X, %v", short(l), code, u, ok, v, has)
			}
		}
		for u := rune(-200); u < 6000; u++ {
			code, ok := x.Code(u)
			if c, has := ranges.Code(table, u); code != c || ok != has {
				t.Fatalf("%s: Code of %X: %X, %v, of ranges %X, %v", short(l), u, code, ok, c, has)
			}
		}
		for _, p := range ranges.Pairs(table) {
			if u, ok := x.Scalar(p.Code); u != p.Scalar || !ok {
				t.Fatalf("%s: Scalar of %X: %X, %v", short(l), p.Code, u, ok)
			}
		}
		if a, b := x.Blocks(); a > len(l) || b > len(l) || (a == 0) != (len(l) == 0) || (b == 0) != (len(l) == 0) {
			t.Fatalf("%s: Blocks %d, %d", short(l), a, b)
		}
	}
}

// What holds in every layer.

// answers is all that a table tells about its beginning and some codes.
func answers(x *trie.Trie, l []api.Pair) string {
	var s []byte
	add := func(n int, ok bool) { s = strconv.AppendBool(strconv.AppendInt(s, int64(n), 10), ok) }
	for n := -100; n < 1000; n++ {
		u, ok := x.Scalar(n)
		add(int(u), ok)
		add(x.Code(rune(n)))
	}
	for _, p := range l {
		u, ok := x.Scalar(p.Code)
		add(int(u), ok)
		add(x.Code(p.Scalar))
	}
	a, b := x.Blocks()
	add(a, true)
	add(b, true)
	return string(s)
}

// TestGiven: the list that is handed in stays as it was, with what lies behind its end, and what is done to it afterwards does not change the table (R4).
func TestGiven(t *testing.T) {
	for _, l := range [][]api.Pair{
		nil,
		of(0, 'A', 1, 'B', 64, 'A', 65, 'B'),
		of(1, 'C', 2, 'B', 3, 'A', 64, 'B', 700, 'A'),
		run(500, 3, 1, 600, -1),
		of(5, 'A', 4, 'B'),
		of(5, 'B', 6, -1),
		run(most+1, 0, 1, 'A', 0),
	} {
		in := append(slices.Clone(l), of(900, 'Q', 901, 'P', 7, -1)...)
		was := slices.Clone(in)
		given := in[:len(l)]
		x, e := trie.New(given)
		if !slices.Equal(in, was) {
			t.Fatalf("%s: changed to %s", short(was), short(in))
		}
		if want := wantNew(l); e != want {
			t.Fatalf("%s: error %d, want %d", short(l), e, want)
		}
		if x == nil {
			continue
		}
		before := answers(x, l)
		if !slices.Equal(in, was) {
			t.Fatalf("%s: changed to %s", short(was), short(in))
		}
		for i := range in {
			in[i] = api.Pair{Code: 999 - i, Scalar: 'z'}
		}
		if answers(x, l) != before {
			t.Errorf("%s: a change of the list has changed the table", short(l))
		}
		again, _ := trie.New(l)
		if again == x || answers(again, l) != before {
			t.Errorf("%s: the same list makes another table, or the very same", short(l))
		}
	}
}

// TestApart: tables do not know of one another, of refused ones neither, and asking changes none.
func TestApart(t *testing.T) {
	one, _ := trie.New(of(0, 'A', 1, 'B', 64, 'A'))
	two, _ := trie.New(of(0, 'B', 1, 'A', 128, 'C'))
	before, beforeTwo := answers(one, nil), answers(two, nil)
	trie.New(of(0, 'Z', 1, 'Z', 64, 'A', 700, 'Y'))
	trie.New(of(0, 'Z', 0, 'Z'))
	trie.New(run(most+1, 0, 1, 'A', 0))
	if before == beforeTwo || answers(one, nil) != before || answers(two, nil) != beforeTwo {
		t.Error("a table has changed")
	}
	if c, ok := one.Code('B'); c != 1 || !ok {
		t.Errorf("one: Code of B: %d, %v", c, ok)
	}
	if c, ok := two.Code('B'); c != 0 || !ok {
		t.Errorf("two: Code of B: %d, %v", c, ok)
	}
	if c, ok := two.Code('C'); c != 128 || !ok {
		t.Errorf("two: Code of C: %d, %v", c, ok)
	}
}
