package ranges_test

import (
	"fmt"
	"math"
	"math/rand/v2"
	"slices"
	"testing"

	"dragoman/api"
	"dragoman/ranges"
)

const top = 1<<24 - 1 // the greatest code

// isScalar says it in the document's words, apart from the program.
func isScalar(u int) bool { return 0 <= u && u < 0xD800 || 0xDFFF < u && u < 0x110000 }

// one is a table of one range.
func one(from, to int, at rune) []api.Range { return []api.Range{{From: from, To: to, At: at}} }

// rightBut: whether a table is right but for how many ranges and codes it has. A range's scalars are wrong here where they reach below 0, above 10FFFF or into the surrogates.
func rightBut(l []api.Range) bool {
	for i, r := range l {
		if r.From < 0 || r.To > top || r.From > r.To {
			return false
		}
		if i > 0 && l[i-1].To >= r.From {
			return false
		}
		first := int(r.At)
		last := first + r.To - r.From
		if first < 0 || last > 0x10FFFF || first <= 0xDFFF && last >= 0xD800 {
			return false
		}
	}
	return true
}

// wantCheck is what Check answers by the document.
func wantCheck(l []api.Range) api.Errno {
	switch {
	case len(l) > 65536:
		return api.ErrLong
	case !rightBut(l):
		return api.ErrField
	}
	codes := 0
	for _, r := range l {
		codes += r.To + 1 - r.From
	}
	if codes > 65536 {
		return api.ErrLong
	}
	return api.OK
}

// wantPairs are the pairs of a right table; of any other there are none.
func wantPairs(l []api.Range) (pairs []api.Pair) {
	if wantCheck(l) != api.OK {
		return nil
	}
	for _, r := range l {
		for n := range r.To - r.From + 1 {
			pairs = append(pairs, api.Pair{Code: r.From + n, Scalar: r.At + rune(n)})
		}
	}
	return pairs
}

// rightPairs: whether a list of pairs is right but for how many there are.
func rightPairs(l []api.Pair) bool {
	for i, p := range l {
		if p.Code < 0 || p.Code > top || !isScalar(int(p.Scalar)) {
			return false
		}
		if i > 0 && l[i-1].Code >= p.Code {
			return false
		}
	}
	return true
}

// fewest is the number of ranges that some right pairs need: of all ways to cut the list, the one with the fewest pieces that are each one range.
func fewest(l []api.Pair) int {
	least := make([]int, len(l)+1)
	for end := 1; end <= len(l); end++ {
		least[end] = math.MaxInt
		for begin := range end {
			if isRange(l[begin:end]) {
				least[end] = min(least[end], least[begin]+1)
			}
		}
	}
	return least[len(l)]
}

// isRange: whether one right range has just these pairs.
func isRange(l []api.Pair) bool {
	first, last := l[0], l[len(l)-1]
	return slices.Equal(wantPairs(one(first.Code, last.Code, first.Scalar)), l)
}

// short tells a list without filling the screen.
func short[T api.Pair | api.Range](l []T) string {
	if len(l) > 8 {
		return fmt.Sprintf("%X .. (%d)", l[:8], len(l))
	}
	return fmt.Sprintf("%X", l)
}

// singles are n ranges of one code each, with a code left out behind each.
func singles(n int) []api.Range {
	l := make([]api.Range, n)
	for i := range l {
		l[i] = api.Range{From: 2 * i, To: 2 * i, At: rune(i % 0xD800)}
	}
	return l
}

// row are n pairs with codes from code on, and the same scalar throughout.
func row(n, code int, u rune) []api.Pair {
	l := make([]api.Pair, n)
	for i := range l {
		l[i] = api.Pair{Code: code + i, Scalar: u}
	}
	return l
}

// Promise 6.1, Check.

// TestExamples: the chapter's.
func TestExamples(t *testing.T) {
	l, e := ranges.Pack([]api.Pair{{Code: 1, Scalar: 'a'}, {Code: 2, Scalar: 'b'}, {Code: 4, Scalar: 'c'}})
	want := []api.Range{{From: 1, To: 2, At: 'a'}, {From: 4, To: 4, At: 'c'}}
	if !slices.Equal(l, want) || e != api.OK {
		t.Fatalf("Pack: %v, error %d", l, e)
	}
	if u, ok := ranges.Scalar(l, 2); u != 'b' || !ok {
		t.Errorf("Scalar of 2: %c, %v", u, ok)
	}
	if u, ok := ranges.Scalar(l, 3); u != 0 || ok {
		t.Errorf("Scalar of 3: %c, %v", u, ok)
	}
	if c, ok := ranges.Code(l, 'c'); c != 4 || !ok {
		t.Errorf("Code of c: %d, %v", c, ok)
	}
	if e := ranges.Check(one(2, 1, 0)); e != api.ErrField {
		t.Errorf("Check of 2 to 1: error %d", e)
	}
	if e := ranges.Check(one(0, 1, 0xD7FF)); e != api.ErrField {
		t.Errorf("Check of a range over D7FF and D800: error %d", e)
	}
}

// TestCheckOfOne: one range, at each edge.
func TestCheckOfOne(t *testing.T) {
	for _, c := range []struct {
		from, to int
		at       rune
		want     api.Errno
	}{
		{0, 0, 0, api.OK},
		{0, 0, 'a', api.OK},
		{1, 2, 'a', api.OK},
		{top, top, 'a', api.OK},
		{top - 1, top, 'a', api.OK},
		{1, 0, 'a', api.ErrField},
		{2, 1, 'a', api.ErrField},
		{top, 0, 'a', api.ErrField},
		{top, top - 1, 'a', api.ErrField},
		{-1, -1, 'a', api.ErrField},
		{-1, 0, 'a', api.ErrField},
		{0, -1, 'a', api.ErrField},
		{top, top + 1, 'a', api.ErrField},
		{top + 1, top + 1, 'a', api.ErrField},
		{top + 1, top, 'a', api.ErrField},
		{math.MinInt, math.MaxInt, 'a', api.ErrField},
		{math.MinInt, math.MinInt, 'a', api.ErrField},
		{math.MaxInt, math.MaxInt, 'a', api.ErrField},
		{math.MaxInt, math.MinInt, 'a', api.ErrField},
		{0, math.MaxInt, 'a', api.ErrField},
		{math.MinInt, 0, 'a', api.ErrField},
		{0, 1 << 32, 'a', api.ErrField},
		{1 << 32, 1 << 32, 'a', api.ErrField},
		// The surrogates: at the beginning, at the end, between, all around.
		{5, 5, 0xD7FF, api.OK},
		{5, 5, 0xD800, api.ErrField},
		{5, 5, 0xDBFF, api.ErrField},
		{5, 5, 0xDC00, api.ErrField},
		{5, 5, 0xDFFF, api.ErrField},
		{5, 5, 0xE000, api.OK},
		{5, 6, 0xD7FE, api.OK},
		{5, 6, 0xD7FF, api.ErrField},
		{5, 6, 0xD800, api.ErrField},
		{5, 6, 0xDFFF, api.ErrField},
		{5, 6, 0xE000, api.OK},
		{0, 0x800, 0xD7FF, api.ErrField},
		{0, 0x801, 0xD7FF, api.ErrField},
		{0, 0x7FF, 0xD800, api.ErrField},
		{0, 0x800, 0xD800, api.ErrField},
		{0, 0xD7FF, 0, api.OK},
		{0, 0xD800, 0, api.ErrField},
		{0, 0xDFFF, 0, api.ErrField},
		{0, 0xE000, 0, api.ErrField},
		{0, 0xFFFF, 0, api.ErrField},
		{0, 0x10FFFF, 0, api.ErrField},
		// Numbers that are none for other reasons.
		{5, 5, -1, api.ErrField},
		{5, 6, -1, api.ErrField},
		{5, 7, -1, api.ErrField},
		{5, 5, 0x10FFFF, api.OK},
		{5, 6, 0x10FFFE, api.OK},
		{5, 6, 0x10FFFF, api.ErrField},
		{5, 5, 0x110000, api.ErrField},
		{5, 5, math.MinInt32, api.ErrField},
		{5, 5, math.MaxInt32, api.ErrField},
		{5, 6, math.MaxInt32, api.ErrField},
		{0, top, math.MaxInt32, api.ErrField},
		{0, top, math.MaxInt32 - top + 1, api.ErrField},
		{0, top, 0xE000, api.ErrField},
		{0, top, 0, api.ErrField},
		// Just as many codes as may be, and one more.
		{0, 65535, 0xE000, api.OK},
		{0, 65536, 0xE000, api.ErrLong},
		{top - 65535, top, 0x100000, api.OK},
		{top - 65536, top, 0xF0000, api.ErrLong},
		{0, 0x101FFF, 0xE000, api.ErrLong},
		{0, 0x102000, 0xE000, api.ErrField},
		{top - 0x101FFF, top, 0xE000, api.ErrLong},
		{top - 0x101FFF, top + 1, 0xE000, api.ErrField},
	} {
		if e := ranges.Check(one(c.from, c.to, c.at)); e != c.want {
			t.Errorf("Check of %X to %X at %X: error %d, want %d", c.from, c.to, c.at, e, c.want)
		}
	}
}

// TestCheckOfTwo: how ranges stand to one another.
func TestCheckOfTwo(t *testing.T) {
	for _, c := range []struct {
		l    []api.Range
		want api.Errno
	}{
		{nil, api.OK},
		{[]api.Range{}, api.OK},
		{[]api.Range{{From: 1, To: 2, At: 'a'}, {From: 3, To: 3, At: 'c'}}, api.OK},
		{[]api.Range{{From: 1, To: 2, At: 'a'}, {From: 4, To: 4, At: 'a'}}, api.OK},
		{[]api.Range{{From: 1, To: 2, At: 'z'}, {From: 4, To: 5, At: 'a'}}, api.OK},
		{[]api.Range{{From: 0, To: 0, At: 'a'}, {From: top, To: top, At: 'a'}}, api.OK},
		{[]api.Range{{From: 1, To: 2, At: 'a'}, {From: 2, To: 3, At: 'b'}}, api.ErrField},
		{[]api.Range{{From: 1, To: 3, At: 'a'}, {From: 2, To: 4, At: 'b'}}, api.ErrField},
		{[]api.Range{{From: 1, To: 4, At: 'a'}, {From: 2, To: 3, At: 'b'}}, api.ErrField},
		{[]api.Range{{From: 2, To: 2, At: 'a'}, {From: 2, To: 2, At: 'a'}}, api.ErrField},
		{[]api.Range{{From: 3, To: 3, At: 'a'}, {From: 2, To: 2, At: 'b'}}, api.ErrField},
		{[]api.Range{{From: 4, To: 5, At: 'a'}, {From: 2, To: 4, At: 'b'}}, api.ErrField},
		{[]api.Range{{From: 0, To: 0, At: 'a'}, {From: 0, To: 1, At: 'b'}}, api.ErrField},
		// Only the neighbour ahead is close enough to tell that the third is wrong.
		{[]api.Range{{From: 0, To: 0, At: 'a'}, {From: 5, To: 6, At: 'b'}, {From: 3, To: 4, At: 'c'}}, api.ErrField},
		// The fault is in the last range alone, or in the first.
		{[]api.Range{{From: 0, To: 0, At: 'a'}, {From: 2, To: 1, At: 'b'}}, api.ErrField},
		{[]api.Range{{From: 0, To: 0, At: 'a'}, {From: 1, To: 1, At: 0xD800}}, api.ErrField},
		{[]api.Range{{From: 0, To: 0, At: 0xD800}, {From: 1, To: 1, At: 'a'}}, api.ErrField},
		{[]api.Range{{From: -1, To: -1, At: 'b'}, {From: 0, To: 0, At: 'a'}}, api.ErrField},
		// Both sides of the surrogates are right, if they are ranges of their own.
		{[]api.Range{{From: 0, To: 1, At: 0xD7FE}, {From: 2, To: 3, At: 0xE000}}, api.OK},
	} {
		if e := ranges.Check(c.l); e != c.want {
			t.Errorf("Check of %X: error %d, want %d", c.l, e, c.want)
		}
	}
}

// TestCheckOfMany: which error stands ahead of the other.
func TestCheckOfMany(t *testing.T) {
	check := func(name string, l []api.Range, want api.Errno) {
		if e := ranges.Check(l); e != want {
			t.Errorf("%s: error %d, want %d", name, e, want)
		}
		if want != wantCheck(l) {
			t.Errorf("%s: the model says %d, the test %d", name, wantCheck(l), want)
		}
	}
	changed := func(n, at int, r api.Range) []api.Range {
		l := singles(n)
		l[at] = r
		return l
	}
	const most = 65536
	check("MaxPairs ranges", singles(most), api.OK)
	check("one range more", singles(most+1), api.ErrLong)
	check("twice as many", singles(2*most), api.ErrLong)
	check("one range more, the first wrong", changed(most+1, 0, api.Range{From: 0, To: 0, At: -1}), api.ErrLong)
	check("one range more, the last wrong", changed(most+1, most, api.Range{From: 1, To: 0, At: 'a'}), api.ErrLong)
	check("one range more, all the same", make([]api.Range, most+1), api.ErrLong)
	check("MaxPairs ranges, all the same", make([]api.Range, most), api.ErrField)
	check("MaxPairs ranges, the last wrong", changed(most, most-1, api.Range{From: 2 * most, To: 2 * most, At: 0xDFFF}), api.ErrField)
	check("MaxPairs ranges, one code more at the first", changed(most, 0, api.Range{From: 0, To: 1, At: 'a'}), api.ErrLong)
	check("MaxPairs ranges, one code more at the last", changed(most, most-1, api.Range{From: 2*most - 2, To: 2*most - 1, At: 'a'}), api.ErrLong)
	check("one range fewer, one code more", changed(most-1, 7, api.Range{From: 14, To: 15, At: 'a'}), api.OK)

	wide := api.Range{From: 0, To: most - 1, At: 0xE000}
	check("too many codes in two", []api.Range{wide, {From: most, To: most, At: 'a'}}, api.ErrLong)
	check("too many codes in each of two", []api.Range{{From: 0, To: most, At: 0xE000}, {From: most + 1, To: 2*most + 1, At: 0xE000}}, api.ErrLong)
	check("too many codes, and behind them a wrong scalar", []api.Range{{From: 0, To: most, At: 0xE000}, {From: most + 1, To: most + 1, At: 0xD800}}, api.ErrField)
	check("too many codes, and behind them a wrong code", []api.Range{{From: 0, To: most, At: 0xE000}, {From: most, To: most + 1, At: 'a'}}, api.ErrField)
	check("a wrong range, and behind it too many codes", []api.Range{{From: 1, To: 0, At: 'a'}, {From: 2, To: most + 2, At: 0xE000}}, api.ErrField)
	check("just as many codes in two", []api.Range{{From: 0, To: 0x7FFF, At: 0}, {From: 0x8000, To: 0xFFFF, At: 0}}, api.OK)

	var all []api.Range // as many codes as there are at all
	for from := 0; from < top; from += 0x100000 {
		all = append(all, api.Range{From: from, To: from + 0xFFFFF, At: 0xE000})
	}
	check("every code", all, api.ErrLong)
	check("every code, and one", append(all, api.Range{From: top + 1, To: top + 1, At: 'a'}), api.ErrField)
}

// edgeCodes and edgeScalars are what wrong and right numbers of both kinds lie around.
var (
	edgeCodes   = []int{math.MinInt, math.MinInt32, -2, -1, 0, 1, 2, 0x7FF, 0x800, 0x801, 65535, 65536, top - 65536, top - 65535, top - 1, top, top + 1, 1 << 32, math.MaxInt}
	edgeScalars = []rune{math.MinInt32, -2, -1, 0, 1, 'a', 0xD7FE, 0xD7FF, 0xD800, 0xDBFF, 0xDC00, 0xDFFF, 0xE000, 0xFFFD, 0xFFFF, 0x10000, 0x10FFFE, 0x10FFFF, 0x110000, math.MaxInt32 - 1, math.MaxInt32}
)

// TestCheckAtEdges: every range of edges, alone and with each of some others on both sides.
func TestCheckAtEdges(t *testing.T) {
	others := [][]api.Range{nil, one(0, 0, 'a'), one(1, 2, 0xE000), one(2, 65536, 0xE000), one(top, top, 'a'), one(2, 1, 'a'), one(5, 5, 0xD800)}
	for _, from := range edgeCodes {
		for _, to := range edgeCodes {
			for _, at := range edgeScalars {
				r := api.Range{From: from, To: to, At: at}
				for _, o := range others {
					for _, l := range [][]api.Range{slices.Concat(o, []api.Range{r}), append([]api.Range{r}, o...)} {
						if e, want := ranges.Check(l), wantCheck(l); e != want {
							t.Fatalf("Check of %X: error %d, want %d", l, e, want)
						}
					}
				}
			}
		}
	}
}

// Promise 6.1, Pack.

// TestPack: what lies side by side and what does not.
func TestPack(t *testing.T) {
	for _, c := range []struct {
		l    []api.Pair
		want []api.Range
	}{
		{nil, nil},
		{[]api.Pair{}, nil},
		{[]api.Pair{{Code: 0, Scalar: 0}}, one(0, 0, 0)},
		{[]api.Pair{{Code: 0, Scalar: 'a'}}, one(0, 0, 'a')},
		{[]api.Pair{{Code: top, Scalar: 0x10FFFF}}, one(top, top, 0x10FFFF)},
		{[]api.Pair{{Code: top - 1, Scalar: 0x10FFFE}, {Code: top, Scalar: 0x10FFFF}}, one(top-1, top, 0x10FFFE)},
		{[]api.Pair{{Code: 0, Scalar: 0}, {Code: 1, Scalar: 1}, {Code: 2, Scalar: 2}}, one(0, 2, 0)},
		// Codes side by side, scalars the same, falling, or with one between.
		{[]api.Pair{{Code: 1, Scalar: 'a'}, {Code: 2, Scalar: 'a'}}, []api.Range{{From: 1, To: 1, At: 'a'}, {From: 2, To: 2, At: 'a'}}},
		{[]api.Pair{{Code: 1, Scalar: 'b'}, {Code: 2, Scalar: 'a'}}, []api.Range{{From: 1, To: 1, At: 'b'}, {From: 2, To: 2, At: 'a'}}},
		{[]api.Pair{{Code: 1, Scalar: 'a'}, {Code: 2, Scalar: 'c'}}, []api.Range{{From: 1, To: 1, At: 'a'}, {From: 2, To: 2, At: 'c'}}},
		// Scalars side by side, codes not; both as far apart.
		{[]api.Pair{{Code: 1, Scalar: 'a'}, {Code: 3, Scalar: 'b'}}, []api.Range{{From: 1, To: 1, At: 'a'}, {From: 3, To: 3, At: 'b'}}},
		{[]api.Pair{{Code: 1, Scalar: 'a'}, {Code: 3, Scalar: 'c'}}, []api.Range{{From: 1, To: 1, At: 'a'}, {From: 3, To: 3, At: 'c'}}},
		// A range may go on where its first code alone wouldn't tell.
		{[]api.Pair{{Code: 1, Scalar: 'a'}, {Code: 2, Scalar: 'b'}, {Code: 3, Scalar: 'b'}, {Code: 4, Scalar: 'c'}, {Code: 5, Scalar: 'd'}},
			[]api.Range{{From: 1, To: 2, At: 'a'}, {From: 3, To: 5, At: 'b'}}},
		// The surrogates.
		{[]api.Pair{{Code: 1, Scalar: 0xD7FE}, {Code: 2, Scalar: 0xD7FF}, {Code: 3, Scalar: 0xE000}, {Code: 4, Scalar: 0xE001}},
			[]api.Range{{From: 1, To: 2, At: 0xD7FE}, {From: 3, To: 4, At: 0xE000}}},
		{[]api.Pair{{Code: 0, Scalar: 0xD7FF}, {Code: 0x801, Scalar: 0xE000}},
			[]api.Range{{From: 0, To: 0, At: 0xD7FF}, {From: 0x801, To: 0x801, At: 0xE000}}},
		{[]api.Pair{{Code: 1, Scalar: 0xFFFF}, {Code: 2, Scalar: 0x10000}}, one(1, 2, 0xFFFF)},
		{[]api.Pair{{Code: 1, Scalar: 0x10FFFF}, {Code: 2, Scalar: 0}},
			[]api.Range{{From: 1, To: 1, At: 0x10FFFF}, {From: 2, To: 2, At: 0}}},
	} {
		l, e := ranges.Pack(c.l)
		if !slices.Equal(l, c.want) || e != api.OK {
			t.Errorf("Pack of %X: %X, error %d, want %X", c.l, l, e, c.want)
		}
	}
}

// TestPackOfWrong: lists of pairs that are not right.
func TestPackOfWrong(t *testing.T) {
	for _, l := range [][]api.Pair{
		{{Code: -1, Scalar: 'a'}},
		{{Code: -1, Scalar: 'a'}, {Code: 0, Scalar: 'b'}},
		{{Code: math.MinInt, Scalar: 'a'}},
		{{Code: top + 1, Scalar: 'a'}},
		{{Code: top, Scalar: 'a'}, {Code: top + 1, Scalar: 'b'}},
		{{Code: 1 << 32, Scalar: 'a'}},
		{{Code: math.MaxInt, Scalar: 'a'}},
		{{Code: 1, Scalar: 'a'}, {Code: 1, Scalar: 'b'}},
		{{Code: 1, Scalar: 'a'}, {Code: 1, Scalar: 'a'}},
		{{Code: 0, Scalar: 'a'}, {Code: 0, Scalar: 'a'}},
		{{Code: 2, Scalar: 'a'}, {Code: 1, Scalar: 'b'}},
		{{Code: 1, Scalar: 'a'}, {Code: 5, Scalar: 'b'}, {Code: 4, Scalar: 'c'}},
		{{Code: 1, Scalar: -1}},
		{{Code: 1, Scalar: 0xD800}},
		{{Code: 1, Scalar: 0xDBFF}},
		{{Code: 1, Scalar: 0xDC00}},
		{{Code: 1, Scalar: 0xDFFF}},
		{{Code: 1, Scalar: 0x110000}},
		{{Code: 1, Scalar: math.MaxInt32}},
		{{Code: 1, Scalar: math.MinInt32}},
		{{Code: 1, Scalar: 0xD7FF}, {Code: 2, Scalar: 0xD800}},
		{{Code: 1, Scalar: 0xDFFF}, {Code: 2, Scalar: 0xE000}},
		{{Code: 1, Scalar: 0x10FFFF}, {Code: 2, Scalar: 0x110000}},
		{{Code: 1, Scalar: -1}, {Code: 2, Scalar: 0}},
	} {
		if table, e := ranges.Pack(l); len(table) != 0 || e != api.ErrField {
			t.Errorf("Pack of %X: %X, error %d, want none, error 3", l, table, e)
		}
	}
}

// TestPackOfMany: as many pairs as may be, one more, and which error stands ahead.
func TestPackOfMany(t *testing.T) {
	const most = 65536
	table, e := ranges.Pack(row(most, 0, 'a'))
	if e != api.OK || len(table) != most || table[most-1] != (api.Range{From: most - 1, To: most - 1, At: 'a'}) {
		t.Errorf("MaxPairs pairs: %d ranges, error %d", len(table), e)
	}
	table, e = ranges.Pack(wantPairs(one(top-most+1, top, 0xE000)))
	if e != api.OK || !slices.Equal(table, one(top-most+1, top, 0xE000)) {
		t.Errorf("MaxPairs pairs of one range: %s, error %d", short(table), e)
	}
	wrong := func(l []api.Pair, at int, p api.Pair) []api.Pair {
		l[at] = p
		return l
	}
	for name, c := range map[string]struct {
		l    []api.Pair
		want api.Errno
	}{
		"one pair more":                     {row(most+1, 0, 'a'), api.ErrLong},
		"twice as many":                     {row(2*most, 0, 'a'), api.ErrLong},
		"one pair more, all the same":       {make([]api.Pair, most+1), api.ErrLong},
		"one pair more, no scalars":         {row(most+1, 0, 0xD800), api.ErrLong},
		"one pair more, codes below 0":      {row(most+1, -9, 'a'), api.ErrLong},
		"one pair more, the last wrong":     {wrong(row(most+1, 0, 'a'), most, api.Pair{Code: 5, Scalar: 'a'}), api.ErrLong},
		"MaxPairs pairs, the first wrong":   {wrong(row(most, 0, 'a'), 0, api.Pair{Code: -1, Scalar: 'a'}), api.ErrField},
		"MaxPairs pairs, the last wrong":    {wrong(row(most, 0, 'a'), most-1, api.Pair{Code: most - 1, Scalar: -1}), api.ErrField},
		"MaxPairs pairs, codes beyond":      {row(most, top-most+2, 'a'), api.ErrField},
		"MaxPairs pairs, the last not high": {wrong(row(most, 0, 'a'), most-1, api.Pair{Code: most - 2, Scalar: 'a'}), api.ErrField},
	} {
		if table, e := ranges.Pack(c.l); len(table) != 0 || e != c.want {
			t.Errorf("%s: %s, error %d, want none, error %d", name, short(table), e, c.want)
		}
	}
}

// checkPack holds Pack of some pairs against the model.
func checkPack(t *testing.T, l []api.Pair) {
	table, e := ranges.Pack(l)
	if !rightPairs(l) {
		if len(table) != 0 || e != api.ErrField {
			t.Fatalf("Pack of %s: %s, error %d, want none, error 3", short(l), short(table), e)
		}
		return
	}
	if e != api.OK || wantCheck(table) != api.OK || !slices.Equal(wantPairs(table), l) {
		t.Fatalf("Pack of %s: %s, error %d: not a right table of these pairs", short(l), short(table), e)
	}
	if want := fewest(l); len(table) != want {
		t.Fatalf("Pack of %s: %s: %d ranges, want %d", short(l), short(table), len(table), want)
	}
}

// TestPackOfAllShort: all lists of up to three pairs of some codes and scalars.
func TestPackOfAllShort(t *testing.T) {
	var pairs []api.Pair
	for _, code := range []int{-1, 0, 1, 2, 3, top - 1, top, top + 1} {
		for _, u := range []rune{-1, 0, 'a', 'b', 'c', 0xD7FF, 0xD800, 0xDFFF, 0xE000, 0x10FFFF, 0x110000} {
			pairs = append(pairs, api.Pair{Code: code, Scalar: u})
		}
	}
	for _, p := range pairs {
		checkPack(t, []api.Pair{p})
		for _, q := range pairs {
			checkPack(t, []api.Pair{p, q})
			for _, r := range pairs {
				checkPack(t, []api.Pair{p, q, r})
			}
		}
	}
}

// TestPackOfRows: all rows of six codes, of which each stands for one of a few scalars, or for nothing.
func TestPackOfRows(t *testing.T) {
	for _, scalars := range [][]rune{{'a', 'b', 'c', 'd'}, {0xD7FE, 0xD7FF, 0xE000, 0xE001}} {
		n := len(scalars) + 1
		for number := range n * n * n * n * n * n {
			var l []api.Pair
			for code := range 6 {
				if at := number % n; at < len(scalars) {
					l = append(l, api.Pair{Code: code, Scalar: scalars[at]})
				}
				number /= n
			}
			checkPack(t, l)
		}
	}
}

// Promise 6.1, Pairs.

// TestPairs: of some right tables, written out.
func TestPairs(t *testing.T) {
	for _, c := range []struct {
		l    []api.Range
		want []api.Pair
	}{
		{nil, nil},
		{[]api.Range{}, nil},
		{one(0, 0, 0), []api.Pair{{Code: 0, Scalar: 0}}},
		{one(top, top, 0x10FFFF), []api.Pair{{Code: top, Scalar: 0x10FFFF}}},
		{one(5, 7, 'a'), []api.Pair{{Code: 5, Scalar: 'a'}, {Code: 6, Scalar: 'b'}, {Code: 7, Scalar: 'c'}}},
		{[]api.Range{{From: 1, To: 2, At: 0xD7FE}, {From: 3, To: 3, At: 0xE000}, {From: 9, To: 10, At: 'a'}},
			[]api.Pair{{Code: 1, Scalar: 0xD7FE}, {Code: 2, Scalar: 0xD7FF}, {Code: 3, Scalar: 0xE000}, {Code: 9, Scalar: 'a'}, {Code: 10, Scalar: 'b'}}},
		{[]api.Range{{From: 1, To: 1, At: 'a'}, {From: 2, To: 2, At: 'b'}, {From: 3, To: 3, At: 'a'}},
			[]api.Pair{{Code: 1, Scalar: 'a'}, {Code: 2, Scalar: 'b'}, {Code: 3, Scalar: 'a'}}},
	} {
		if l := ranges.Pairs(c.l); !slices.Equal(l, c.want) {
			t.Errorf("Pairs of %X: %X, want %X", c.l, l, c.want)
		}
	}
}

// TestPairsOfMany: as many ranges and codes as may be; of one more of either there are none.
func TestPairsOfMany(t *testing.T) {
	const most = 65536
	for name, c := range map[string]struct {
		l []api.Range
		n int
	}{
		"MaxPairs ranges":     {singles(most), most},
		"one range more":      {singles(most + 1), 0},
		"MaxPairs codes":      {one(0, most-1, 0xE000), most},
		"MaxPairs at the top": {one(top-most+1, top, 0x100000), most},
		"one code more":       {one(0, most, 0xE000), 0},
		"one code and range":  {append(one(0, most-1, 0xE000), api.Range{From: most, To: most, At: 'a'}), 0},
		"very many codes":     {one(0, 0x101FFF, 0xE000), 0},
	} {
		l := ranges.Pairs(c.l)
		if len(l) != c.n || !slices.Equal(l, wantPairs(c.l)) {
			t.Errorf("%s: %s, want %d", name, short(l), c.n)
		}
	}
}

// TestPairsAtEdges: every range of edges, alone and behind or ahead of a right one; those that are not right have none at all.
func TestPairsAtEdges(t *testing.T) {
	right := api.Range{From: 100, To: 101, At: 'a'}
	for _, from := range edgeCodes {
		for _, to := range edgeCodes {
			for _, at := range edgeScalars {
				r := api.Range{From: from, To: to, At: at}
				for _, l := range [][]api.Range{{r}, {r, right}, {right, r}} {
					if got, want := ranges.Pairs(l), wantPairs(l); !slices.Equal(got, want) {
						t.Fatalf("Pairs of %X: %s, want %s", l, short(got), short(want))
					}
				}
			}
		}
	}
}

// Promise 6.2.

// TestScalar: ahead of all ranges, at both ends of each, between, and behind all.
func TestScalar(t *testing.T) {
	l := []api.Range{{From: 3, To: 3, At: 'z'}, {From: 5, To: 8, At: 0xD7FC}, {From: 9, To: 10, At: 0xE000}, {From: top - 3, To: top - 1, At: 0}}
	for _, c := range []struct {
		code int
		want rune
		ok   bool
	}{
		{math.MinInt, 0, false}, {-1, 0, false}, {0, 0, false}, {2, 0, false},
		{3, 'z', true}, {4, 0, false},
		{5, 0xD7FC, true}, {6, 0xD7FD, true}, {7, 0xD7FE, true}, {8, 0xD7FF, true},
		{9, 0xE000, true}, {10, 0xE001, true}, {11, 0, false}, {0x8000, 0, false}, {top - 4, 0, false},
		{top - 3, 0, true}, {top - 2, 1, true}, {top - 1, 2, true},
		{top, 0, false}, {top + 1, 0, false}, {3 + 1<<32, 0, false}, {math.MaxInt, 0, false},
	} {
		if u, ok := ranges.Scalar(l, c.code); u != c.want || ok != c.ok {
			t.Errorf("Scalar of %X: %X, %v, want %X, %v", c.code, u, ok, c.want, c.ok)
		}
	}
}

// TestOfNoRanges: no code stands for anything.
func TestOfNoRanges(t *testing.T) {
	for _, l := range [][]api.Range{nil, {}} {
		for _, code := range edgeCodes {
			if u, ok := ranges.Scalar(l, code); u != 0 || ok {
				t.Errorf("Scalar of %X: %X, %v", code, u, ok)
			}
		}
		for _, u := range edgeScalars {
			if c, ok := ranges.Code(l, u); c != 0 || ok {
				t.Errorf("Code of %X: %X, %v", u, c, ok)
			}
		}
	}
}

// TestCode: a scalar of several codes has the least of them, also where the greater one begins a range.
func TestCode(t *testing.T) {
	l := []api.Range{
		{From: 10, To: 19, At: 0x70},
		{From: 30, To: 30, At: 0x61},
		{From: 40, To: 59, At: 0x60},
		{From: 60, To: 61, At: 0xD7FE},
		{From: 62, To: 63, At: 0xE000},
		{From: 70, To: 70, At: 0},
		{From: top - 1, To: top, At: 0x10FFFE},
	}
	for _, c := range []struct {
		u    rune
		want int
		ok   bool
	}{
		{0x70, 10, true}, {0x72, 12, true}, {0x73, 13, true}, {0x79, 19, true},
		{0x60, 40, true}, {0x61, 30, true}, {0x62, 42, true}, {0x6F, 55, true},
		{0x5F, 0, false}, {0x7A, 0, false},
		{0xD7FD, 0, false}, {0xD7FE, 60, true}, {0xD7FF, 61, true},
		{0xD800, 0, false}, {0xDBFF, 0, false}, {0xDC00, 0, false}, {0xDFFF, 0, false},
		{0xE000, 62, true}, {0xE001, 63, true}, {0xE002, 0, false},
		{0, 70, true}, {1, 0, false},
		{0x10FFFD, 0, false}, {0x10FFFE, top - 1, true}, {0x10FFFF, top, true}, {0x110000, 0, false},
		{-1, 0, false}, {math.MinInt32, 0, false}, {math.MaxInt32, 0, false},
	} {
		if code, ok := ranges.Code(l, c.u); code != c.want || ok != c.ok {
			t.Errorf("Code of %X: %X, %v, want %X, %v", c.u, code, ok, c.want, c.ok)
		}
	}
	// Code 0 is told from none by true.
	if code, ok := ranges.Code(one(0, 1, 'a'), 'a'); code != 0 || !ok {
		t.Errorf("Code of a: %X, %v, want 0, true", code, ok)
	}
	if code, ok := ranges.Code([]api.Range{{From: 4, To: 4, At: 'a'}, {From: 5, To: 5, At: 'a'}}, 'a'); code != 4 || !ok {
		t.Errorf("Code of a: %X, %v, want 4, true", code, ok)
	}
}

// look holds Scalar and Code against a right table's pairs, at every one of some codes and scalars; and that Scalar of Code is the scalar.
func look(t *testing.T, l []api.Range, codes []int, scalars []rune) {
	scalarOf, codeOf := map[int]rune{}, map[rune]int{}
	for _, p := range wantPairs(l) {
		scalarOf[p.Code] = p.Scalar
		if c, ok := codeOf[p.Scalar]; !ok || p.Code < c {
			codeOf[p.Scalar] = p.Code
		}
	}
	for _, code := range codes {
		want, wantOK := scalarOf[code]
		if u, ok := ranges.Scalar(l, code); u != want || ok != wantOK {
			t.Fatalf("%s: Scalar of %X: %X, %v, want %X, %v", short(l), code, u, ok, want, wantOK)
		}
	}
	for _, u := range scalars {
		want, wantOK := codeOf[u]
		code, ok := ranges.Code(l, u)
		if code != want || ok != wantOK {
			t.Fatalf("%s: Code of %X: %X, %v, want %X, %v", short(l), u, code, ok, want, wantOK)
		}
		if back, has := ranges.Scalar(l, code); ok && (back != u || !has) {
			t.Fatalf("%s: Scalar of Code of %X: %X, %v", short(l), u, back, has)
		}
	}
}

// upTo are the whole numbers from from to to.
func upTo[T int | rune](from, to T) (l []T) {
	for n := from; n <= to; n++ {
		l = append(l, n)
	}
	return l
}

// TestAllSmallTables: all tables of up to three ranges in which codes are below 7 and scalars among a few.
func TestAllSmallTables(t *testing.T) {
	codes := append(upTo(-2, 9), edgeCodes...)
	scalars := slices.Concat(upTo[rune](0x60, 0x6A), upTo[rune](0xD7FB, 0xD801), upTo[rune](0xDFFE, 0xE006), edgeScalars)
	var add func(l []api.Range, from int)
	tables := 0
	add = func(l []api.Range, from int) {
		look(t, l, codes, scalars)
		tables++
		if len(l) == 3 {
			return
		}
		for f := from; f < 7; f++ {
			for to := f; to < 7; to++ {
				for _, at := range []rune{'a', 'b', 'c', 0xD7FD, 0xE000} {
					if more := append(slices.Clone(l), api.Range{From: f, To: to, At: at}); wantCheck(more) == api.OK {
						add(more, to+1)
					}
				}
			}
		}
	}
	add(nil, 0)
	if tables < 1000 {
		t.Errorf("%d tables only", tables)
	}
}

// randomTable is a right table of up to n ranges, whose scalars may be the same; some ranges go on where the one ahead ends.
func randomTable(r *rand.Rand, n int) (l []api.Range) {
	from, codes := r.IntN(3), 0
	for range r.IntN(n + 1) {
		to := from + r.IntN(9)
		at := rune(r.IntN(40))
		switch r.IntN(4) {
		case 0:
			at += 0xD7F0
		case 1:
			at += 0xDFF8
		case 2:
			at += 0x10FFE8
		}
		if len(l) > 0 && r.IntN(3) == 0 {
			at = l[len(l)-1].At + rune(from-l[len(l)-1].From)
		}
		more := api.Range{From: from, To: to, At: at}
		if !rightBut([]api.Range{more}) || codes+to-from >= 65536 {
			continue
		}
		codes += to - from + 1
		l = append(l, more)
		from = to + 1 + r.IntN(4)/2
	}
	return l
}

// TestRandomTables: Scalar and Code at every code and scalar around, and what 6.3 says.
func TestRandomTables(t *testing.T) {
	r := rand.New(rand.NewPCG(6, 2))
	scalars := slices.Concat(upTo[rune](-2, 50), upTo[rune](0xD7E0, 0xD840), upTo[rune](0xDFE0, 0xE030), upTo[rune](0x10FFE0, 0x110002), edgeScalars)
	for n := range 1500 {
		l := randomTable(r, n%60)
		codes := edgeCodes
		if len(l) > 0 {
			codes = append(upTo(-2, l[len(l)-1].To+3), edgeCodes...)
		}
		look(t, l, codes, scalars)
		follows(t, l)
	}
}

// TestLargeTables: as many ranges as may be, looked at in every code.
func TestLargeTables(t *testing.T) {
	l := singles(65536)
	look(t, l, append(upTo(-1, 2*65536), edgeCodes...), append(upTo[rune](0, 300), edgeScalars...))
	follows(t, l)
	l = one(top-65535, top, 0x100000)
	look(t, l, append(upTo(top-65537, top+1), edgeCodes...), append(upTo[rune](0xFFFFE, 0x110001), edgeScalars...))
	follows(t, l)
	l = []api.Range{{From: 0x10000, To: 0x1D7FF, At: 0}, {From: 0x20000, To: 0x227FF, At: 0xE000}}
	look(t, l, append(upTo(0xFFFE, 0x22801), edgeCodes...), append(upTo[rune](0, 0x10802), edgeScalars...))
	follows(t, l)
}

// Promise 6.3.

// follows holds a right table against what follows: Pack of Pairs has the same pairs in no more ranges, and packing once more changes nothing.
func follows(t *testing.T, l []api.Range) {
	if e := ranges.Check(l); e != api.OK {
		t.Fatalf("Check of %s: error %d", short(l), e)
	}
	pairs := ranges.Pairs(l)
	if !slices.Equal(pairs, wantPairs(l)) {
		t.Fatalf("Pairs of %s: %s", short(l), short(pairs))
	}
	table, e := ranges.Pack(pairs)
	if e != api.OK || len(table) > len(l) || ranges.Check(table) != api.OK {
		t.Fatalf("Pack of Pairs of %s: %s, error %d", short(l), short(table), e)
	}
	if back := ranges.Pairs(table); !slices.Equal(back, pairs) {
		t.Fatalf("Pairs of Pack of %s: %s", short(pairs), short(back))
	}
}

// TestPairsOfPack: random lists of right pairs, short and long, come back as they were.
func TestPairsOfPack(t *testing.T) {
	r := rand.New(rand.NewPCG(6, 3))
	for n := range 400 {
		var l []api.Pair
		code, u := r.IntN(3), rune(r.IntN(0xD800))
		most := n % 200
		if n == 399 {
			most = 65536
		}
		for len(l) < most {
			l = append(l, api.Pair{Code: code, Scalar: u})
			code += 1 + r.IntN(5)/4
			if u++; r.IntN(4) == 0 || !isScalar(int(u)) {
				u = []rune{u - 1, 'a', 0xD7FC, 0xE000, 0x10FFF0}[r.IntN(5)]
			}
			if !isScalar(int(u)) {
				u = 0
			}
		}
		if !rightPairs(l) {
			t.Fatalf("the test's pairs are wrong: %s", short(l))
		}
		table, e := ranges.Pack(l)
		if e != api.OK || ranges.Check(table) != api.OK {
			t.Fatalf("Pack of %s: %s, error %d", short(l), short(table), e)
		}
		if back := ranges.Pairs(table); !slices.Equal(back, l) {
			t.Fatalf("Pairs of Pack of %s: %s", short(l), short(back))
		}
		if len(l) < 200 && len(table) != fewest(l) {
			t.Fatalf("Pack of %s: %d ranges, want %d", short(l), len(table), fewest(l))
		}
		for _, p := range l {
			if v, ok := ranges.Scalar(table, p.Code); v != p.Scalar || !ok {
				t.Fatalf("Scalar of %X: %X, %v, want %X", p.Code, v, ok, p.Scalar)
			}
		}
	}
}

// The rules R1 and R4.

// TestWrongTablesEnd: of a table that is not right nothing is promised but that calls end without a panic.
func TestWrongTablesEnd(t *testing.T) {
	var all []api.Range
	for _, from := range edgeCodes {
		for _, to := range edgeCodes {
			for _, at := range []rune{math.MinInt32, -1, 0, 0xD800, 0x10FFFF, math.MaxInt32} {
				all = append(all, api.Range{From: from, To: to, At: at})
			}
		}
	}
	falling := slices.Clone(all)
	slices.Reverse(falling)
	tables := [][]api.Range{all, falling, make([]api.Range, 70000), singles(70000)}
	for i := range all {
		tables = append(tables, all[i:i+1])
	}
	for _, l := range tables {
		for _, code := range edgeCodes {
			ranges.Scalar(l, code)
		}
		for _, u := range edgeScalars {
			ranges.Code(l, u)
		}
		ranges.Check(l)
		ranges.Pairs(l)
	}
}

// TestMemory: lists that are handed in stay as they were, with what lies behind their end; answers share nothing with each other.
func TestMemory(t *testing.T) {
	tables := [][]api.Range{nil, one(1, 9, 'a'), {{From: 1, To: 2, At: 'a'}, {From: 3, To: 3, At: 'c'}, {From: 7, To: 9, At: 'a'}}, one(2, 1, 'a'), {{From: 5, To: 5, At: 'a'}, {From: 4, To: 4, At: 'b'}}}
	behind := api.Range{From: 77, To: 78, At: 'q'}
	for _, l := range tables {
		in := append(slices.Clone(l), behind, behind, behind)
		was := slices.Clone(in)
		given := in[:len(l)]
		ranges.Check(given)
		ranges.Scalar(given, 8)
		ranges.Code(given, 'b')
		first := ranges.Pairs(given)
		second := ranges.Pairs(given)
		if !slices.Equal(in, was) {
			t.Errorf("%X: changed to %X", was, in)
		}
		kept := slices.Clone(second)
		for i := range first {
			first[i] = api.Pair{Code: -7, Scalar: -7}
		}
		_ = append(first, api.Pair{Code: -8})
		if !slices.Equal(second, kept) {
			t.Errorf("%X: the answers of Pairs share memory", l)
		}
		if third := ranges.Pairs(given); !slices.Equal(third, kept) {
			t.Errorf("%X: Pairs answers from memory that it has handed out", l)
		}
	}
	for _, l := range [][]api.Pair{nil, wantPairs(tables[1]), wantPairs(tables[2]), row(9, 3, 'a'), row(3, 3, 0xD800), make([]api.Pair, 3)} {
		in := append(slices.Clone(l), row(3, 90, 'q')...)
		was := slices.Clone(in)
		given := in[:len(l)]
		first, _ := ranges.Pack(given)
		second, _ := ranges.Pack(given)
		if !slices.Equal(in, was) {
			t.Errorf("%X: changed to %X", was, in)
		}
		kept := slices.Clone(second)
		for i := range first {
			first[i] = api.Range{From: -7}
		}
		_ = append(first, api.Range{From: -8})
		if !slices.Equal(second, kept) {
			t.Errorf("%X: the answers of Pack share memory", l)
		}
		if third, _ := ranges.Pack(given); !slices.Equal(third, kept) {
			t.Errorf("%X: Pack answers from memory that it has handed out", l)
		}
	}
}
