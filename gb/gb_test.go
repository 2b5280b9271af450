package gb_test

import (
	"fmt"
	"math"
	"slices"
	"strconv"
	"strings"
	"testing"

	"dragoman/gb"
)

// chapter is the document's lists, letter by letter.
var chapter = []struct {
	row  int
	list string
}{
	{1, "3000-3002 30FB 02C9 02C7 00A8 3003 3005 2015 FF5E 2016 2026 2018 2019 201C 201D 3014 3015 3008-300F 3016 3017 3010 3011 00B1 00D7 00F7 2236 2227 2228 2211 220F 222A 2229 2208 2237 221A 22A5 2225 2220 2312 2299 222B 222E 2261 224C 2248 223D 221D 2260 226E 226F 2264 2265 221E 2235 2234 2642 2640 00B0 2032 2033 2103 FF04 00A4 FFE0 FFE1 2030 00A7 2116 2606 2605 25CB 25CF 25CE 25C7 25C6 25A1 25A0 25B3 25B2 203B 2192 2190 2191 2193 3013"},
	{2, "----*16 2488-249B 2474-2487 2460-2469 ----*2 3220-3229 ----*2 2160-216B ----*2"},
	{3, "FF01-FF03 FFE5 FF05-FF5D FFE3"},
	{4, "3041-3093 ----*11"},
	{5, "30A1-30F6 ----*8"},
	{6, "0391-03A1 03A3-03A9 ----*8 03B1-03C1 03C3-03C9 ----*38"},
	{7, "0410-0415 0401 0416-042F ----*15 0430-0435 0451 0436-044F ----*13"},
	{8, "0101 00E1 01CE 00E0 0113 00E9 011B 00E8 012B 00ED 01D0 00EC 014D 00F3 01D2 00F2 016B 00FA 01D4 00F9 01D6 01D8 01DA 01DC 00FC 00EA ----*10 3105-3129 ----*21"},
	{9, "----*3 2500-254B ----*15"},
	{16, "554A 963F 57C3 6328 54CE 5509 54C0 7691 764C 853C 77EE 827E 788D 7231 9698 978D 6C28 5B89 4FFA 6309 6697 5CB8 80FA 6848 80AE 6602 76CE 51F9 6556 71AC 7FF1 8884 50B2 5965 61CA 6FB3 82AD 634C 6252 53ED 5427 7B06 516B 75A4 5DF4 62D4 8DCB 9776 628A 8019 575D 9738 7F62 7238 767D 67CF 767E 6446 4F70 8D25 62DC 7A17 6591 73ED 642C 6273 822C 9881 677F 7248 626E 62CC 4F34 74E3 534A 529E 7ECA 90A6 5E2E 6886 699C 8180 7ED1 68D2 78C5 868C 9551 508D 8C24 82DE 80DE 5305 8912 5265"},
}

const nothing = -1 // what read and model say of a cell that stands for nothing

// read is the scalars that a list of the document says, one by one.
func read(list string) ([]rune, error) {
	var l []rune
	for _, word := range strings.Fields(list) {
		more, err := readWord(word)
		if err != nil {
			return nil, fmt.Errorf("%s: %w", word, err)
		}
		l = append(l, more...)
	}
	return l, nil
}

func readWord(word string) ([]rune, error) {
	if word == "----" {
		return []rune{nothing}, nil
	}
	if n, ok := strings.CutPrefix(word, "----*"); ok {
		times, err := strconv.Atoi(n)
		if err != nil || times < 1 {
			return nil, fmt.Errorf("%d times: %v", times, err)
		}
		return slices.Repeat([]rune{nothing}, times), nil
	}
	from, to, ok := strings.Cut(word, "-")
	if !ok {
		to = from
	}
	a, err := strconv.ParseInt(from, 16, 32)
	if err != nil {
		return nil, err
	}
	b, err := strconv.ParseInt(to, 16, 32)
	if err != nil {
		return nil, err
	}
	var l []rune
	for u := a; u <= b; u++ {
		l = append(l, rune(u))
	}
	return l, nil
}

// place is a row and a cell.
type place struct{ row, cell int }

// model is the set by the document's lists, apart from the program.
type model struct {
	scalars map[place]rune // of the cells that stand for something
	places  map[rune]place // the first of each scalar
}

func newModel(t *testing.T) model {
	t.Helper()
	m := model{scalars: map[place]rune{}, places: map[rune]place{}}
	for _, c := range chapter {
		l, err := read(c.list)
		if err != nil || len(l) != 94 {
			t.Fatalf("row %d: a list of %d, %v", c.row, len(l), err)
		}
		for i, u := range l {
			if u == nothing {
				continue
			}
			p := place{c.row, i + 1}
			m.scalars[p] = u
			if _, ok := m.places[u]; !ok {
				m.places[u] = p
			}
		}
	}
	return m
}

func isListed(row int) bool { return 1 <= row && row <= 9 || row == 16 }

func (m model) checkRow(t *testing.T, row int) {
	t.Helper()
	l := gb.Row(row)
	if !isListed(row) {
		if len(l) != 0 {
			t.Fatalf("Row(%d): %d scalars", row, len(l))
		}
		return
	}
	if len(l) != 94 {
		t.Fatalf("Row(%d): %d scalars", row, len(l))
	}
	for i, u := range l {
		want, ok := m.scalars[place{row, i + 1}]
		if !ok {
			want = 0xFFFD
		}
		if u != want {
			t.Fatalf("Row(%d) at %d: %04X, want %04X", row, i+1, u, want)
		}
	}
}

func (m model) checkScalar(t *testing.T, row, cell int) {
	t.Helper()
	want, wantOK := m.scalars[place{row, cell}]
	if u, ok := gb.Scalar(row, cell); u != want || ok != wantOK {
		t.Fatalf("Scalar(%d, %d) = %04X, %v, want %04X, %v", row, cell, u, ok, want, wantOK)
	}
}

func (m model) checkPlace(t *testing.T, u rune) {
	t.Helper()
	want, wantOK := m.places[u]
	if row, cell, ok := gb.Place(u); row != want.row || cell != want.cell || ok != wantOK {
		t.Fatalf("Place(%04X) = %d, %d, %v, want %d, %d, %v", u, row, cell, ok, want.row, want.cell, wantOK)
	}
}

// check holds all rows, all cells and the scalars of all of them.
func (m model) check(t *testing.T) {
	t.Helper()
	for row := 0; row <= 95; row++ {
		m.checkRow(t, row)
		for cell := 0; cell <= 95; cell++ {
			m.checkScalar(t, row, cell)
		}
	}
	for u := range m.places {
		for _, v := range []rune{u - 1, u, u + 1} {
			m.checkPlace(t, v)
		}
	}
}

// checkCell holds all calls at one cell that is known by eye; want is nothing, if it stands for nothing.
func checkCell(t *testing.T, row, cell int, want rune) {
	t.Helper()
	l := gb.Row(row)
	if len(l) != 94 {
		t.Fatalf("Row(%d): %d scalars", row, len(l))
	}
	u, ok := gb.Scalar(row, cell)
	if want == nothing {
		if u != 0 || ok || l[cell-1] != 0xFFFD {
			t.Errorf("row %d, cell %d: %04X, %v, listed %04X, want nothing", row, cell, u, ok, l[cell-1])
		}
		return
	}
	if u != want || !ok || l[cell-1] != want {
		t.Errorf("row %d, cell %d: %04X, %v, listed %04X, want %04X", row, cell, u, ok, l[cell-1], want)
	}
	if r, c, ok := gb.Place(want); r != row || c != cell || !ok {
		t.Errorf("Place(%04X) = %d, %d, %v, want %d, %d", want, r, c, ok, row, cell)
	}
}

func checkNoScalar(t *testing.T, row, cell int) {
	t.Helper()
	if u, ok := gb.Scalar(row, cell); u != 0 || ok {
		t.Errorf("Scalar(%d, %d) = %04X, %v", row, cell, u, ok)
	}
}

func checkNoPlace(t *testing.T, u rune) {
	t.Helper()
	if row, cell, ok := gb.Place(u); row != 0 || cell != 0 || ok {
		t.Errorf("Place(%X) = %d, %d, %v", u, row, cell, ok)
	}
}

// noScalars are numbers that are no scalars, at both sides of what is one, and far away.
var noScalars = []rune{
	math.MinInt32, math.MinInt32 + 1, math.MinInt32 + 'A', math.MinInt32 + 0x3041, math.MinInt32 + 0xFF5E, math.MinInt32 + 0xFFFD, -0x1000000 + 'A', -0x1000000 + 0x3041, -0x110000, -0x10FFFF, -0x10000, -0xFFFD,
	-0xFF5E, -0x3041, -257, -256, -255, -0xA8, -0xA4, -0x80, -0x5C, -'A', -2, -1,
	0xD800, 0xD801, 0xD841, 0xDBFF, 0xDC00, 0xDC41, 0xDFFE, 0xDFFF,
	0x110000, 0x110001, 0x110000 + 'A', 0x113041, 0x11FF5E, 0x11FFFD, 0x200000 + 'A', 0x203041, 0x1000000 + 'A', 0x1003041, 0x100FF5E, 0x40000000 + 'A', 0x40003041, math.MaxInt32 - 0x7F, math.MaxInt32 - 1, math.MaxInt32,
}

// alike are numbers that a scalar could be taken for, if some of their bits were lost.
func alike(u rune) []rune {
	return []rune{-u, ^u, u - 0x100, u + 0x100, u - 0x10000, u + 0x10000, u + 0x110000, u + 0x1000000, u + 0x40000000, math.MinInt32 + (u & 0xFFFF)}
}

// farNumbers are rows and cells far outside, and such as become one if some of their bits are lost.
func farNumbers() []int {
	l := []int{math.MinInt, math.MinInt + 1, math.MinInt + 4, math.MinInt32, -1 << 32, -65536, math.MaxInt32, math.MaxInt32 + 1, math.MaxInt - 1, math.MaxInt}
	for n := range 96 {
		for _, far := range []int{1 << 8, 1 << 16, 1 << 31, 1 << 32, 1 << 40, math.MinInt} {
			l = append(l, n+far, -n-far)
		}
	}
	return l
}

// TestExamples: the chapter's.
func TestExamples(t *testing.T) {
	checkCell(t, 4, 1, 0x3041)
	if row, cell, ok := gb.Place(0x3042); row != 4 || cell != 2 || !ok {
		t.Errorf("Place(3042) = %d, %d, %v", row, cell, ok)
	}
	if l := gb.Row(94); len(l) != 0 {
		t.Errorf("Row(94): %04X", l)
	}
	for cell := range 96 {
		checkNoScalar(t, 94, cell)
	}
}

// TestRead: what the lists are held against is read as the chapter says.
func TestRead(t *testing.T) {
	for _, c := range []struct {
		list string
		want []rune
	}{
		{"00A0", []rune{0xA0}},
		{"00A0 20AC", []rune{0xA0, 0x20AC}},
		{"00A6-00A9", []rune{0xA6, 0xA7, 0xA8, 0xA9}},
		{"---- 00AD ----", []rune{nothing, 0xAD, nothing}},
		{"00A0 ----*3 00A4 ----*2", []rune{0xA0, nothing, nothing, nothing, 0xA4, nothing, nothing}},
	} {
		if l, err := read(c.list); err != nil || !slices.Equal(l, c.want) {
			t.Errorf("%s: %X, %v", c.list, l, err)
		}
	}
	for _, list := range []string{"00A0 x", "----*", "----*0", "00A0-", "-00A0"} {
		if l, err := read(list); err == nil {
			t.Errorf("%s: %X", list, l)
		}
	}
	for row := range 95 {
		n := 0
		for _, c := range chapter {
			if c.row == row {
				n++
			}
		}
		if isListed(row) != (n == 1) {
			t.Errorf("row %d has %d lists", row, n)
		}
	}
}

// Promise 15.1: rows and cells.

// TestLists: all rows and all cells, and all scalars.
func TestLists(t *testing.T) {
	newModel(t).check(t)
}

// TestCounts: how many cells of each row stand for something, as one counts them by eye.
func TestCounts(t *testing.T) {
	for row, want := range map[int]int{1: 94, 2: 72, 3: 94, 4: 83, 5: 86, 6: 48, 7: 66, 8: 63, 9: 76, 16: 94} {
		n := 0
		for cell := 1; cell <= 94; cell++ {
			if _, ok := gb.Scalar(row, cell); ok {
				n++
			}
		}
		listed := 0
		for _, u := range gb.Row(row) {
			if u != 0xFFFD {
				listed++
			}
		}
		if n != want || listed != want {
			t.Errorf("row %d: %d cells, %d listed, want %d", row, n, listed, want)
		}
	}
}

// TestEnds: the first and the last cell of every row, and its first and last scalar, as one finds them in the chapter by eye.
func TestEnds(t *testing.T) {
	for _, c := range []struct {
		row, first, last int // cells
		a, b             rune
	}{
		{1, 1, 94, 0x3000, 0x3013},
		{2, 17, 92, 0x2488, 0x216B},
		{3, 1, 94, 0xFF01, 0xFFE3},
		{4, 1, 83, 0x3041, 0x3093},
		{5, 1, 86, 0x30A1, 0x30F6},
		{6, 1, 56, 0x0391, 0x03C9},
		{7, 1, 81, 0x0410, 0x044F},
		{8, 1, 73, 0x0101, 0x3129},
		{9, 4, 79, 0x2500, 0x254B},
		{16, 1, 94, 0x554A, 0x5265},
	} {
		checkCell(t, c.row, c.first, c.a)
		checkCell(t, c.row, c.last, c.b)
		for cell := 1; cell < c.first; cell++ {
			checkCell(t, c.row, cell, nothing)
		}
		for cell := c.last + 1; cell <= 94; cell++ {
			checkCell(t, c.row, cell, nothing)
		}
		checkNoScalar(t, c.row, 0)
		checkNoScalar(t, c.row, 95)
	}
}

// TestNothing: exactly these stretches of cells stand for nothing, in rows that are listed.
func TestNothing(t *testing.T) {
	for row, stretches := range map[int][][2]int{
		1:  {},
		2:  {{1, 16}, {67, 68}, {79, 80}, {93, 94}},
		3:  {},
		4:  {{84, 94}},
		5:  {{87, 94}},
		6:  {{25, 32}, {57, 94}},
		7:  {{34, 48}, {82, 94}},
		8:  {{27, 36}, {74, 94}},
		9:  {{1, 3}, {80, 94}},
		16: {},
	} {
		for cell := 1; cell <= 94; cell++ {
			if slices.ContainsFunc(stretches, func(s [2]int) bool { return s[0] <= cell && cell <= s[1] }) {
				checkCell(t, row, cell, nothing)
			} else if u, ok := gb.Scalar(row, cell); u == 0 || !ok {
				t.Errorf("Scalar(%d, %d) = %04X, %v", row, cell, u, ok)
			}
		}
	}
}

// TestPlaces: some cells, those at both ends of the lists' stretches and beside them among them, as one finds them by eye.
func TestPlaces(t *testing.T) {
	for p, u := range map[place]rune{
		{1, 2}: 0x3001, {1, 3}: 0x3002, {1, 4}: 0x30FB, {1, 5}: 0x02C9, {1, 7}: 0xA8, {1, 9}: 0x3005, {1, 11}: 0xFF5E, {1, 19}: 0x3015, {1, 20}: 0x3008, {1, 27}: 0x300F, {1, 28}: 0x3016, {1, 29}: 0x3017, {1, 30}: 0x3010, {1, 31}: 0x3011, {1, 32}: 0xB1, {1, 71}: 0xFF04, {1, 72}: 0xA4, {1, 73}: 0xFFE0, {1, 93}: 0x2193,
		{2, 36}: 0x249B, {2, 37}: 0x2474, {2, 56}: 0x2487, {2, 57}: 0x2460, {2, 66}: 0x2469, {2, 69}: 0x3220, {2, 78}: 0x3229, {2, 81}: 0x2160,
		{3, 2}: 0xFF02, {3, 3}: 0xFF03, {3, 4}: 0xFFE5, {3, 5}: 0xFF05, {3, 33}: 0xFF21, {3, 93}: 0xFF5D,
		{4, 2}: 0x3042, {4, 82}: 0x3092, {5, 2}: 0x30A2, {5, 85}: 0x30F5,
		{6, 17}: 0x03A1, {6, 18}: 0x03A3, {6, 24}: 0x03A9, {6, 33}: 0x03B1, {6, 49}: 0x03C1, {6, 50}: 0x03C3,
		{7, 6}: 0x0415, {7, 7}: 0x0401, {7, 8}: 0x0416, {7, 33}: 0x042F, {7, 49}: 0x0430, {7, 54}: 0x0435, {7, 55}: 0x0451, {7, 56}: 0x0436,
		{8, 2}: 0xE1, {8, 3}: 0x01CE, {8, 25}: 0xFC, {8, 26}: 0xEA, {8, 37}: 0x3105, {8, 38}: 0x3106, {8, 72}: 0x3128,
		{9, 5}: 0x2501, {9, 16}: 0x250C, {9, 78}: 0x254A,
		{16, 2}: 0x963F, {16, 10}: 0x853C, {16, 43}: 0x516B, {16, 93}: 0x8912,
	} {
		checkCell(t, p.row, p.cell, u)
	}
}

// TestOtherRows: rows that are not listed, those beside the listed ones and those that are none at all.
func TestOtherRows(t *testing.T) {
	rows := []int{0, 10, 11, 12, 13, 14, 15, 17, 18, 93, 94, 95, 96, 116, 127, 128, 255, 256}
	for row := 1; row <= 1000; row++ {
		rows = append(rows, -row)
		if row > 16 {
			rows = append(rows, row)
		}
	}
	for _, row := range append(rows, farNumbers()...) {
		if l := gb.Row(row); len(l) != 0 {
			t.Errorf("Row(%d): %d scalars", row, len(l))
		}
		for cell := -1; cell <= 96; cell++ {
			checkNoScalar(t, row, cell)
		}
	}
}

// TestOtherCells: cells that are none, in rows that are listed and in others.
func TestOtherCells(t *testing.T) {
	cells := []int{0}
	for n := 1; n <= 1000; n++ {
		cells = append(cells, -n)
		if n > 94 {
			cells = append(cells, n)
		}
	}
	cells = append(cells, farNumbers()...)
	for row := -1; row <= 96; row++ {
		for _, cell := range cells {
			checkNoScalar(t, row, cell)
		}
	}
	far := farNumbers()
	for i, row := range far {
		checkNoScalar(t, row, row)
		checkNoScalar(t, row, far[len(far)-1-i])
	}
}

// TestAround: all pairs of numbers around the rows and cells, so that neither's place is taken by the other.
func TestAround(t *testing.T) {
	m := newModel(t)
	for row := -300; row <= 300; row++ {
		m.checkRow(t, row)
		for cell := -300; cell <= 300; cell++ {
			m.checkScalar(t, row, cell)
		}
	}
}

// Promise 15.1: the places of scalars.

// TestEveryNumber: Place of every scalar, and of the numbers around them.
func TestEveryNumber(t *testing.T) {
	m := newModel(t)
	for u := rune(-0x11000); u < 0x121000; u++ {
		m.checkPlace(t, u)
	}
}

// TestNoScalars: what is no scalar has no place, not even where it is alike in its lowest bits.
func TestNoScalars(t *testing.T) {
	for _, u := range noScalars {
		checkNoPlace(t, u)
	}
	m := newModel(t)
	for u := range m.places {
		for _, v := range alike(u) {
			m.checkPlace(t, v)
		}
	}
}

// TestNoPlace: scalars that stand in no row: FFFD, which Row says of cells that stand for nothing, 0, which Scalar says of them, and those just beside stretches and single ones.
func TestNoPlace(t *testing.T) {
	for _, u := range []rune{
		0xFFFD, 0xFFFC, 0xFFFE, 0xFFFF, 0x1FFFD, 0x10FFFD,
		0, 1, 0x20, 'A', 0x5C, 0x7E, 0x7F, 0x80, 0xA0, 0xA1, 0xA3, 0xA5, 0xA6, 0xA9, 0xAF, 0xDF, 0xE2, 0xE4, 0xEB, 0xFF,
		0x0100, 0x0102, 0x01CD, 0x01CF, 0x01DB, 0x01DD, 0x02C6, 0x02C8, 0x02CA,
		0x0390, 0x03A2, 0x03AA, 0x03B0, 0x03C2, 0x03CA, 0x0400, 0x0402, 0x040F, 0x0450, 0x0452,
		0x2010, 0x2014, 0x20AC, 0x2115, 0x215F, 0x216C, 0x2170, 0x2212, 0x245F, 0x246A, 0x2473, 0x249C, 0x24FF, 0x254C,
		0x2FFF, 0x3004, 0x3006, 0x3007, 0x3012, 0x3018, 0x3040, 0x3094, 0x30A0, 0x30F7, 0x30FA, 0x30FC, 0x3104, 0x312A, 0x321F, 0x322A,
		0x4E00, 0x4E9C, 0x5264, 0x5266, 0x5549, 0x554B, 0x9FFF, 0xAC00, 0xFF00, 0xFF5F, 0xFF61, 0xFF9F, 0xFFE2, 0xFFE4, 0xFFE6, 0x10000, 0x1F600, 0x10FFFF,
	} {
		checkNoPlace(t, u)
	}
}

// TestDoubles: no scalar stands in two cells of the chapter, so every cell is the first one of its scalar.
func TestDoubles(t *testing.T) {
	m := newModel(t)
	if len(m.scalars) != len(m.places) {
		t.Errorf("%d cells stand for %d scalars", len(m.scalars), len(m.places))
	}
	for p, u := range m.scalars {
		if row, cell, ok := gb.Place(u); row != p.row || cell != p.cell || !ok {
			t.Errorf("Place(%04X) = %d, %d, %v, want %d, %d", u, row, cell, ok, p.row, p.cell)
		}
	}
}

// Promise 15.1 and R4: what Row answers is its caller's.
func TestRowIsNew(t *testing.T) {
	m := newModel(t)
	for _, c := range chapter {
		l, other := gb.Row(c.row), gb.Row(c.row)
		before := slices.Clone(other)
		l = l[:cap(l)]
		for i := range l {
			l[i] = 'x'
		}
		if !slices.Equal(other, before) {
			t.Fatalf("row %d: two lists share memory", c.row)
		}
		checkNoPlace(t, 'x')
		m.check(t)
	}
}

// Promise 15.2.

// TestThereAndBack: Scalar of Place, and Place of Scalar, by the program's own answers.
func TestThereAndBack(t *testing.T) {
	scalars := 0
	for u := rune(0); u <= 0x10FFFF; u++ {
		row, cell, ok := gb.Place(u)
		if !ok {
			continue
		}
		scalars++
		if back, ok := gb.Scalar(row, cell); back != u || !ok {
			t.Errorf("%04X is at %d, %d, which is %04X, %v", u, row, cell, back, ok)
		}
		if l := gb.Row(row); len(l) != 94 || l[cell-1] != u {
			t.Errorf("%04X is at %d, %d, of the list %04X", u, row, cell, l)
		}
	}
	cells := 0
	for row := 1; row <= 94; row++ {
		for cell := 1; cell <= 94; cell++ {
			u, ok := gb.Scalar(row, cell)
			if !ok {
				continue
			}
			cells++
			r, c, ok := gb.Place(u)
			if again, still := gb.Scalar(r, c); !ok || r > row || r == row && c > cell || again != u || !still {
				t.Errorf("%d, %d is %04X, which is at %d, %d, %v, which is %04X, %v", row, cell, u, r, c, ok, again, still)
			}
		}
	}
	if scalars != 776 || cells != 776 {
		t.Errorf("%d scalars, %d cells", scalars, cells)
	}
}
