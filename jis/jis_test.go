package jis_test

import (
	"fmt"
	"math"
	"slices"
	"strconv"
	"strings"
	"testing"

	"dragoman/jis"
)

// chapter is the document's lists, letter by letter.
var chapter = []struct {
	row  int
	list string
}{
	{1, "3000-3002 FF0C FF0E 30FB FF1A FF1B FF1F FF01 309B 309C 00B4 FF40 00A8 FF3E FFE3 FF3F 30FD 30FE 309D 309E 3003 4EDD 3005-3007 30FC 2015 2010 FF0F FF3C 301C 2016 FF5C 2026 2025 2018 2019 201C 201D FF08 FF09 3014 3015 FF3B FF3D FF5B FF5D 3008-3011 FF0B 2212 00B1 00D7 00F7 FF1D 2260 FF1C FF1E 2266 2267 221E 2234 2642 2640 00B0 2032 2033 2103 FFE5 FF04 00A2 00A3 FF05 FF03 FF06 FF0A FF20 00A7 2606 2605 25CB 25CF 25CE 25C7"},
	{2, "25C6 25A1 25A0 25B3 25B2 25BD 25BC 203B 3012 2192 2190 2191 2193 3013 ----*11 2208 220B 2286 2287 2282 2283 222A 2229 ----*8 2227 2228 00AC 21D2 21D4 2200 2203 ----*11 2220 22A5 2312 2202 2207 2261 2252 226A 226B 221A 223D 221D 2235 222B 222C ----*7 212B 2030 266F 266D 266A 2020 2021 00B6 ----*4 25EF"},
	{3, "----*15 FF10-FF19 ----*7 FF21-FF3A ----*6 FF41-FF5A ----*4"},
	{4, "3041-3093 ----*11"},
	{5, "30A1-30F6 ----*8"},
	{6, "0391-03A1 03A3-03A9 ----*8 03B1-03C1 03C3-03C9 ----*38"},
	{7, "0410-0415 0401 0416-042F ----*15 0430-0435 0451 0436-044F ----*13"},
	{8, "2500 2502 250C 2510 2518 2514 251C 252C 2524 2534 253C 2501 2503 250F 2513 251B 2517 2523 2533 252B 253B 254B 2520 252F 2528 2537 253F 251D 2530 2525 2538 2542 ----*62"},
	{16, "4E9C 5516 5A03 963F 54C0 611B 6328 59F6 9022 8475 831C 7A50 60AA 63E1 6E25 65ED 8466 82A6 9BF5 6893 5727 65A1 6271 5B9B 59D0 867B 98F4 7D62 7DBE 9B8E 6216 7C9F 88B7 5B89 5EB5 6309 6697 6848 95C7 978D 674F 4EE5 4F0A 4F4D 4F9D 5049 56F2 5937 59D4 5A01 5C09 60DF 610F 6170 6613 6905 70BA 754F 7570 79FB 7DAD 7DEF 80C3 840E 8863 8B02 9055 907A 533B 4E95 4EA5 57DF 80B2 90C1 78EF 4E00 58F1 6EA2 9038 7A32 8328 828B 9C2F 5141 5370 54BD 54E1 56E0 59FB 5F15 98F2 6DEB 80E4 852D"},
}

const nothing = -1 // what read and model say of a cell that stands for nothing

// read is the scalars that a list of the document says, one by one.
func read(list string) ([]rune, error) {
	var l []rune
	for _, word := range strings.Fields(list) {
		more, err := readWord(word)
		if err != nil {
			return nil, fmt.Errorf("%s: %w", word, err)
		}
		l = append(l, more...)
	}
	return l, nil
}

func readWord(word string) ([]rune, error) {
	if word == "----" {
		return []rune{nothing}, nil
	}
	if n, ok := strings.CutPrefix(word, "----*"); ok {
		times, err := strconv.Atoi(n)
		if err != nil || times < 1 {
			return nil, fmt.Errorf("%d times: %v", times, err)
		}
		return slices.Repeat([]rune{nothing}, times), nil
	}
	from, to, ok := strings.Cut(word, "-")
	if !ok {
		to = from
	}
	a, err := strconv.ParseInt(from, 16, 32)
	if err != nil {
		return nil, err
	}
	b, err := strconv.ParseInt(to, 16, 32)
	if err != nil {
		return nil, err
	}
	var l []rune
	for u := a; u <= b; u++ {
		l = append(l, rune(u))
	}
	return l, nil
}

// place is a row and a cell.
type place struct{ row, cell int }

// model is the set by the document's lists, apart from the program.
type model struct {
	scalars map[place]rune // of the cells that stand for something
	places  map[rune]place // the first of each scalar
}

func newModel(t *testing.T) model {
	t.Helper()
	m := model{scalars: map[place]rune{}, places: map[rune]place{}}
	for _, c := range chapter {
		l, err := read(c.list)
		if err != nil || len(l) != 94 {
			t.Fatalf("row %d: a list of %d, %v", c.row, len(l), err)
		}
		for i, u := range l {
			if u == nothing {
				continue
			}
			p := place{c.row, i + 1}
			m.scalars[p] = u
			if _, ok := m.places[u]; !ok {
				m.places[u] = p
			}
		}
	}
	return m
}

func isListed(row int) bool { return 1 <= row && row <= 8 || row == 16 }

func (m model) checkRow(t *testing.T, row int) {
	t.Helper()
	l := jis.Row(row)
	if !isListed(row) {
		if len(l) != 0 {
			t.Fatalf("Row(%d): %d scalars", row, len(l))
		}
		return
	}
	if len(l) != 94 {
		t.Fatalf("Row(%d): %d scalars", row, len(l))
	}
	for i, u := range l {
		want, ok := m.scalars[place{row, i + 1}]
		if !ok {
			want = 0xFFFD
		}
		if u != want {
			t.Fatalf("Row(%d) at %d: %04X, want %04X", row, i+1, u, want)
		}
	}
}

func (m model) checkScalar(t *testing.T, row, cell int) {
	t.Helper()
	want, wantOK := m.scalars[place{row, cell}]
	if u, ok := jis.Scalar(row, cell); u != want || ok != wantOK {
		t.Fatalf("Scalar(%d, %d) = %04X, %v, want %04X, %v", row, cell, u, ok, want, wantOK)
	}
}

func (m model) checkPlace(t *testing.T, u rune) {
	t.Helper()
	want, wantOK := m.places[u]
	if row, cell, ok := jis.Place(u); row != want.row || cell != want.cell || ok != wantOK {
		t.Fatalf("Place(%04X) = %d, %d, %v, want %d, %d, %v", u, row, cell, ok, want.row, want.cell, wantOK)
	}
}

// check holds all rows, all cells and the scalars of all of them.
func (m model) check(t *testing.T) {
	t.Helper()
	for row := 0; row <= 95; row++ {
		m.checkRow(t, row)
		for cell := 0; cell <= 95; cell++ {
			m.checkScalar(t, row, cell)
		}
	}
	for u := range m.places {
		for _, v := range []rune{u - 1, u, u + 1} {
			m.checkPlace(t, v)
		}
	}
}

// checkCell holds all calls at one cell that is known by eye; want is nothing, if it stands for nothing.
func checkCell(t *testing.T, row, cell int, want rune) {
	t.Helper()
	l := jis.Row(row)
	if len(l) != 94 {
		t.Fatalf("Row(%d): %d scalars", row, len(l))
	}
	u, ok := jis.Scalar(row, cell)
	if want == nothing {
		if u != 0 || ok || l[cell-1] != 0xFFFD {
			t.Errorf("row %d, cell %d: %04X, %v, listed %04X, want nothing", row, cell, u, ok, l[cell-1])
		}
		return
	}
	if u != want || !ok || l[cell-1] != want {
		t.Errorf("row %d, cell %d: %04X, %v, listed %04X, want %04X", row, cell, u, ok, l[cell-1], want)
	}
	if r, c, ok := jis.Place(want); r != row || c != cell || !ok {
		t.Errorf("Place(%04X) = %d, %d, %v, want %d, %d", want, r, c, ok, row, cell)
	}
}

func checkNoScalar(t *testing.T, row, cell int) {
	t.Helper()
	if u, ok := jis.Scalar(row, cell); u != 0 || ok {
		t.Errorf("Scalar(%d, %d) = %04X, %v", row, cell, u, ok)
	}
}

func checkNoPlace(t *testing.T, u rune) {
	t.Helper()
	if row, cell, ok := jis.Place(u); row != 0 || cell != 0 || ok {
		t.Errorf("Place(%X) = %d, %d, %v", u, row, cell, ok)
	}
}

// noScalars are numbers that are no scalars, at both sides of what is one, and far away.
var noScalars = []rune{
	math.MinInt32, math.MinInt32 + 1, math.MinInt32 + 'A', math.MinInt32 + 0x3041, math.MinInt32 + 0xFF61, math.MinInt32 + 0xFFFD, -0x1000000 + 'A', -0x1000000 + 0x3041, -0x110000, -0x10FFFF, -0x10000, -0xFFFD,
	-0xFF61, -0x3041, -257, -256, -255, -0xA5, -0xA1, -0x80, -0x5C, -'A', -2, -1,
	0xD800, 0xD801, 0xD841, 0xDBFF, 0xDC00, 0xDC41, 0xDFFE, 0xDFFF,
	0x110000, 0x110001, 0x110000 + 'A', 0x113041, 0x11FF61, 0x11FFFD, 0x200000 + 'A', 0x203041, 0x1000000 + 'A', 0x1003041, 0x100FF61, 0x40000000 + 'A', 0x40003041, math.MaxInt32 - 0x7F, math.MaxInt32 - 1, math.MaxInt32,
}

// alike are numbers that a scalar could be taken for, if some of their bits were lost.
func alike(u rune) []rune {
	return []rune{-u, ^u, u - 0x100, u + 0x100, u - 0x10000, u + 0x10000, u + 0x110000, u + 0x1000000, u + 0x40000000, math.MinInt32 + (u & 0xFFFF)}
}

// farNumbers are rows and cells far outside, and such as become one if some of their bits are lost.
func farNumbers() []int {
	l := []int{math.MinInt, math.MinInt + 1, math.MinInt + 4, math.MinInt32, -1 << 32, -65536, math.MaxInt32, math.MaxInt32 + 1, math.MaxInt - 1, math.MaxInt}
	for n := range 96 {
		for _, far := range []int{1 << 8, 1 << 16, 1 << 31, 1 << 32, 1 << 40, math.MinInt} {
			l = append(l, n+far, -n-far)
		}
	}
	return l
}

// TestExamples: the chapter's.
func TestExamples(t *testing.T) {
	checkCell(t, 4, 1, 0x3041)
	if row, cell, ok := jis.Place(0x3042); row != 4 || cell != 2 || !ok {
		t.Errorf("Place(3042) = %d, %d, %v", row, cell, ok)
	}
	if l := jis.Row(94); len(l) != 0 {
		t.Errorf("Row(94): %04X", l)
	}
	for cell := range 96 {
		checkNoScalar(t, 94, cell)
	}
	checkHalf(t, 0x5C, 0xA5)
	checkHalf(t, 0xA0, nothing)
	checkHalf(t, 0xA1, 0xFF61)
	checkNoHalfByte(t, 0x5C)
}

// TestRead: what the lists are held against is read as the chapter says.
func TestRead(t *testing.T) {
	for _, c := range []struct {
		list string
		want []rune
	}{
		{"00A0", []rune{0xA0}},
		{"00A0 20AC", []rune{0xA0, 0x20AC}},
		{"00A6-00A9", []rune{0xA6, 0xA7, 0xA8, 0xA9}},
		{"---- 00AD ----", []rune{nothing, 0xAD, nothing}},
		{"00A0 ----*3 00A4 ----*2", []rune{0xA0, nothing, nothing, nothing, 0xA4, nothing, nothing}},
	} {
		if l, err := read(c.list); err != nil || !slices.Equal(l, c.want) {
			t.Errorf("%s: %X, %v", c.list, l, err)
		}
	}
	for _, list := range []string{"00A0 x", "----*", "----*0", "00A0-", "-00A0"} {
		if l, err := read(list); err == nil {
			t.Errorf("%s: %X", list, l)
		}
	}
	for row := range 95 {
		n := 0
		for _, c := range chapter {
			if c.row == row {
				n++
			}
		}
		if isListed(row) != (n == 1) {
			t.Errorf("row %d has %d lists", row, n)
		}
	}
}

// Promise 14.1: rows and cells.

// TestLists: all rows and all cells, and all scalars.
func TestLists(t *testing.T) {
	newModel(t).check(t)
}

// TestCounts: how many cells of each row stand for something, as one counts them by eye.
func TestCounts(t *testing.T) {
	for row, want := range map[int]int{1: 94, 2: 53, 3: 62, 4: 83, 5: 86, 6: 48, 7: 66, 8: 32, 16: 94} {
		n := 0
		for cell := 1; cell <= 94; cell++ {
			if _, ok := jis.Scalar(row, cell); ok {
				n++
			}
		}
		listed := 0
		for _, u := range jis.Row(row) {
			if u != 0xFFFD {
				listed++
			}
		}
		if n != want || listed != want {
			t.Errorf("row %d: %d cells, %d listed, want %d", row, n, listed, want)
		}
	}
}

// TestEnds: the first and the last cell of every row, and its first and last scalar, as one finds them in the chapter by eye.
func TestEnds(t *testing.T) {
	for _, c := range []struct {
		row, first, last int // cells
		a, b             rune
	}{
		{1, 1, 94, 0x3000, 0x25C7},
		{2, 1, 94, 0x25C6, 0x25EF},
		{3, 16, 90, 0xFF10, 0xFF5A},
		{4, 1, 83, 0x3041, 0x3093},
		{5, 1, 86, 0x30A1, 0x30F6},
		{6, 1, 56, 0x0391, 0x03C9},
		{7, 1, 81, 0x0410, 0x044F},
		{8, 1, 32, 0x2500, 0x2542},
		{16, 1, 94, 0x4E9C, 0x852D},
	} {
		checkCell(t, c.row, c.first, c.a)
		checkCell(t, c.row, c.last, c.b)
		for cell := 1; cell < c.first; cell++ {
			checkCell(t, c.row, cell, nothing)
		}
		for cell := c.last + 1; cell <= 94; cell++ {
			checkCell(t, c.row, cell, nothing)
		}
		checkNoScalar(t, c.row, 0)
		checkNoScalar(t, c.row, 95)
	}
}

// TestNothing: exactly these stretches of cells stand for nothing, in rows that are listed.
func TestNothing(t *testing.T) {
	for row, stretches := range map[int][][2]int{
		1:  {},
		2:  {{15, 25}, {34, 41}, {49, 59}, {75, 81}, {90, 93}},
		3:  {{1, 15}, {26, 32}, {59, 64}, {91, 94}},
		4:  {{84, 94}},
		5:  {{87, 94}},
		6:  {{25, 32}, {57, 94}},
		7:  {{34, 48}, {82, 94}},
		8:  {{33, 94}},
		16: {},
	} {
		for cell := 1; cell <= 94; cell++ {
			if slices.ContainsFunc(stretches, func(s [2]int) bool { return s[0] <= cell && cell <= s[1] }) {
				checkCell(t, row, cell, nothing)
			} else if u, ok := jis.Scalar(row, cell); u == 0 || !ok {
				t.Errorf("Scalar(%d, %d) = %04X, %v", row, cell, u, ok)
			}
		}
	}
}

// TestPlaces: some cells, those at both ends of the lists' stretches and beside them among them, as one finds them by eye.
func TestPlaces(t *testing.T) {
	for p, u := range map[place]rune{
		{1, 2}: 0x3001, {1, 3}: 0x3002, {1, 4}: 0xFF0C, {1, 6}: 0x30FB, {1, 13}: 0xB4, {1, 24}: 0x4EDD, {1, 25}: 0x3005, {1, 27}: 0x3007, {1, 28}: 0x30FC, {1, 32}: 0xFF3C, {1, 33}: 0x301C, {1, 49}: 0xFF5D, {1, 50}: 0x3008, {1, 59}: 0x3011, {1, 60}: 0xFF0B, {1, 79}: 0xFFE5, {1, 93}: 0x25CE,
		{2, 14}: 0x3013, {2, 26}: 0x2208, {2, 33}: 0x2229, {2, 42}: 0x2227, {2, 48}: 0x2203, {2, 60}: 0x2220, {2, 74}: 0x222C, {2, 82}: 0x212B, {2, 89}: 0xB6,
		{3, 25}: 0xFF19, {3, 33}: 0xFF21, {3, 58}: 0xFF3A, {3, 65}: 0xFF41,
		{4, 2}: 0x3042, {4, 82}: 0x3092, {5, 2}: 0x30A2, {5, 85}: 0x30F5,
		{6, 17}: 0x03A1, {6, 18}: 0x03A3, {6, 24}: 0x03A9, {6, 33}: 0x03B1, {6, 49}: 0x03C1, {6, 50}: 0x03C3,
		{7, 6}: 0x0415, {7, 7}: 0x0401, {7, 8}: 0x0416, {7, 33}: 0x042F, {7, 49}: 0x0430, {7, 54}: 0x0435, {7, 55}: 0x0451, {7, 56}: 0x0436,
		{8, 2}: 0x2502, {8, 11}: 0x253C, {8, 12}: 0x2501, {8, 22}: 0x254B, {8, 23}: 0x2520, {8, 31}: 0x2538,
		{16, 2}: 0x5516, {16, 6}: 0x611B, {16, 76}: 0x4E00, {16, 93}: 0x80E4,
	} {
		checkCell(t, p.row, p.cell, u)
	}
}

// TestOtherRows: rows that are not listed, those beside the listed ones and those that are none at all.
func TestOtherRows(t *testing.T) {
	rows := []int{0, 9, 10, 11, 12, 13, 14, 15, 17, 18, 93, 94, 95, 96, 116, 127, 128, 255, 256}
	for row := 1; row <= 1000; row++ {
		rows = append(rows, -row)
		if row > 16 {
			rows = append(rows, row)
		}
	}
	for _, row := range append(rows, farNumbers()...) {
		if l := jis.Row(row); len(l) != 0 {
			t.Errorf("Row(%d): %d scalars", row, len(l))
		}
		for cell := -1; cell <= 96; cell++ {
			checkNoScalar(t, row, cell)
		}
	}
}

// TestOtherCells: cells that are none, in rows that are listed and in others.
func TestOtherCells(t *testing.T) {
	cells := []int{0}
	for n := 1; n <= 1000; n++ {
		cells = append(cells, -n)
		if n > 94 {
			cells = append(cells, n)
		}
	}
	cells = append(cells, farNumbers()...)
	for row := -1; row <= 96; row++ {
		for _, cell := range cells {
			checkNoScalar(t, row, cell)
		}
	}
	far := farNumbers()
	for i, row := range far {
		checkNoScalar(t, row, row)
		checkNoScalar(t, row, far[len(far)-1-i])
	}
}

// TestAround: all pairs of numbers around the rows and cells, so that neither's place is taken by the other.
func TestAround(t *testing.T) {
	m := newModel(t)
	for row := -300; row <= 300; row++ {
		m.checkRow(t, row)
		for cell := -300; cell <= 300; cell++ {
			m.checkScalar(t, row, cell)
		}
	}
}

// Promise 14.1: the places of scalars.

// TestEveryNumber: Place of every scalar, and of the numbers around them.
func TestEveryNumber(t *testing.T) {
	m := newModel(t)
	for u := rune(-0x11000); u < 0x121000; u++ {
		m.checkPlace(t, u)
	}
}

// TestNoScalars: what is no scalar has no place, not even where it is alike in its lowest bits.
func TestNoScalars(t *testing.T) {
	for _, u := range noScalars {
		checkNoPlace(t, u)
	}
	m := newModel(t)
	for u := range m.places {
		for _, v := range alike(u) {
			m.checkPlace(t, v)
		}
	}
}

// TestNoPlace: scalars that stand in no row: FFFD, which Row says of cells that stand for nothing, 0, which Scalar says of them, and those just beside stretches and single ones.
func TestNoPlace(t *testing.T) {
	for _, u := range []rune{
		0xFFFD, 0xFFFC, 0xFFFE, 0xFFFF, 0x1FFFD, 0x10FFFD,
		0, 1, 0x20, 'A', 0x5C, 0x7E, 0x7F, 0x80, 0xA0, 0xA1, 0xA4, 0xA5, 0xA6, 0xA9, 0xAF, 0xFF,
		0x0390, 0x03A2, 0x03AA, 0x03B0, 0x03C2, 0x03CA, 0x0400, 0x0402, 0x040F, 0x0450, 0x0452,
		0x2011, 0x203E, 0x20AC, 0x2204, 0x2504, 0x2FFF, 0x3004, 0x3040, 0x3094, 0x30A0, 0x30F7, 0x30FF,
		0x4DFF, 0x4E01, 0x9FFF, 0xAC00, 0xFF00, 0xFF02, 0xFF07, 0xFF0D, 0xFF5E, 0xFF60, 0xFF61, 0xFF71, 0xFF9F, 0xFFA0, 0x10000, 0x1F600, 0x10FFFF,
	} {
		checkNoPlace(t, u)
	}
}

// TestDoubles: no scalar stands in two cells of the chapter, so every cell is the first one of its scalar.
func TestDoubles(t *testing.T) {
	m := newModel(t)
	if len(m.scalars) != len(m.places) {
		t.Errorf("%d cells stand for %d scalars", len(m.scalars), len(m.places))
	}
	for p, u := range m.scalars {
		if row, cell, ok := jis.Place(u); row != p.row || cell != p.cell || !ok {
			t.Errorf("Place(%04X) = %d, %d, %v, want %d, %d", u, row, cell, ok, p.row, p.cell)
		}
	}
}

// Promise 14.1 and R4: what Row answers is its caller's.
func TestRowIsNew(t *testing.T) {
	m := newModel(t)
	for _, c := range chapter {
		l, other := jis.Row(c.row), jis.Row(c.row)
		before := slices.Clone(other)
		l = l[:cap(l)]
		for i := range l {
			l[i] = 'x'
		}
		if !slices.Equal(other, before) {
			t.Fatalf("row %d: two lists share memory", c.row)
		}
		checkNoPlace(t, 'x')
		m.check(t)
	}
}

// Promise 14.2.

// TestThereAndBack: Scalar of Place, and Place of Scalar, by the program's own answers.
func TestThereAndBack(t *testing.T) {
	scalars := 0
	for u := rune(0); u <= 0x10FFFF; u++ {
		row, cell, ok := jis.Place(u)
		if !ok {
			continue
		}
		scalars++
		if back, ok := jis.Scalar(row, cell); back != u || !ok {
			t.Errorf("%04X is at %d, %d, which is %04X, %v", u, row, cell, back, ok)
		}
		if l := jis.Row(row); len(l) != 94 || l[cell-1] != u {
			t.Errorf("%04X is at %d, %d, of the list %04X", u, row, cell, l)
		}
	}
	cells := 0
	for row := 1; row <= 94; row++ {
		for cell := 1; cell <= 94; cell++ {
			u, ok := jis.Scalar(row, cell)
			if !ok {
				continue
			}
			cells++
			r, c, ok := jis.Place(u)
			if again, still := jis.Scalar(r, c); !ok || r > row || r == row && c > cell || again != u || !still {
				t.Errorf("%d, %d is %04X, which is at %d, %d, %v, which is %04X, %v", row, cell, u, r, c, ok, again, still)
			}
		}
	}
	if scalars != 618 || cells != 618 {
		t.Errorf("%d scalars, %d cells", scalars, cells)
	}
}

// Promise 14.3.

// checkHalf holds both calls at one byte; want is nothing, if it stands for nothing.
func checkHalf(t *testing.T, b byte, want rune) {
	t.Helper()
	u, ok := jis.Half(b)
	if want == nothing {
		if u != 0 || ok {
			t.Errorf("Half(%02X) = %04X, %v", b, u, ok)
		}
		return
	}
	if u != want || !ok {
		t.Errorf("Half(%02X) = %04X, %v, want %04X", b, u, ok, want)
	}
	if back, ok := jis.HalfByte(want); back != b || !ok {
		t.Errorf("HalfByte(%04X) = %02X, %v, want %02X", want, back, ok, b)
	}
}

func checkNoHalfByte(t *testing.T, u rune) {
	t.Helper()
	if b, ok := jis.HalfByte(u); b != 0 || ok {
		t.Errorf("HalfByte(%X) = %02X, %v", u, b, ok)
	}
}

// halves is the scalars of all 256 bytes, put together of what the promise says in its order.
func halves() []rune {
	var l []rune
	for u := range rune(0x80) {
		l = append(l, u)
	}
	l[0x5C], l[0x7E] = 0xA5, 0x203E
	l = append(l, slices.Repeat([]rune{nothing}, 0x21)...)
	for u := rune(0xFF61); u <= 0xFF9F; u++ {
		l = append(l, u)
	}
	return append(l, slices.Repeat([]rune{nothing}, 0x20)...)
}

// TestHalf: all 256 bytes, and their scalars.
func TestHalf(t *testing.T) {
	l := halves()
	if len(l) != 256 {
		t.Fatalf("%d bytes", len(l))
	}
	for b, u := range l {
		checkHalf(t, byte(b), u)
	}
}

// TestHalfEdges: the bytes at which something ends, as one finds them by eye.
func TestHalfEdges(t *testing.T) {
	for b, u := range map[byte]rune{
		0x00: 0x00, 0x01: 0x01, 0x20: 0x20, 'A': 'A', 0x5B: 0x5B, 0x5C: 0xA5, 0x5D: 0x5D, 0x7D: 0x7D, 0x7E: 0x203E, 0x7F: 0x7F,
		0x80: nothing, 0x81: nothing, 0x9F: nothing, 0xA0: nothing, 0xA1: 0xFF61, 0xA2: 0xFF62, 0xA5: 0xFF65, 0xB1: 0xFF71, 0xDE: 0xFF9E, 0xDF: 0xFF9F,
		0xE0: nothing, 0xE1: nothing, 0xFE: nothing, 0xFF: nothing,
	} {
		checkHalf(t, b, u)
	}
}

// TestHalfByteEveryNumber: HalfByte of every scalar, and of the numbers around them.
func TestHalfByteEveryNumber(t *testing.T) {
	bytes := map[rune]byte{}
	for b, u := range halves() {
		if u != nothing {
			bytes[u] = byte(b)
		}
	}
	if len(bytes) != 0x80+63 {
		t.Fatalf("%d scalars", len(bytes))
	}
	check := func(u rune) {
		want, wantOK := bytes[u]
		if b, ok := jis.HalfByte(u); b != want || ok != wantOK {
			t.Fatalf("HalfByte(%X) = %02X, %v, want %02X, %v", u, b, ok, want, wantOK)
		}
	}
	for u := rune(-0x11000); u < 0x121000; u++ {
		check(u)
	}
	for u := range bytes {
		for _, v := range alike(u) {
			check(v)
		}
	}
}

// TestNoHalfByte: scalars that no byte stands for, and numbers that are no scalars.
func TestNoHalfByte(t *testing.T) {
	for _, u := range []rune{
		0x5C, 0x7E, 0x80, 0x81, 0xA0, 0xA1, 0xA4, 0xA6, 0xDF, 0xE0, 0xFF, 0x100, 0x15C, 0x17E, 0x203D, 0x203F, 0x3000, 0x3041, 0x30A1,
		0xFF5C, 0xFF5F, 0xFF60, 0xFFA0, 0xFFA1, 0xFFE3, 0xFFE5, 0xFFFD, 0xFFFE, 0xFFFF, 0x10000, 0x10041, 0x1FF61, 0x10FFFF,
	} {
		checkNoHalfByte(t, u)
	}
	for _, u := range noScalars {
		checkNoHalfByte(t, u)
	}
}
