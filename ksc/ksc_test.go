package ksc_test

import (
	"fmt"
	"math"
	"slices"
	"strconv"
	"strings"
	"testing"

	"dragoman/ksc"
)

// chapter is the document's lists, letter by letter.
var chapter = []struct {
	row  int
	list string
}{
	{1, "3000-3002 00B7 2025 2026 00A8 3003 00AD 2015 2225 FF3C 223C 2018 2019 201C 201D 3014 3015 3008-3011 00B1 00D7 00F7 2260 2264 2265 221E 2234 00B0 2032 2033 2103 212B FFE0 FFE1 FFE5 2642 2640 2220 22A5 2312 2202 2207 2261 2252 00A7 203B 2606 2605 25CB 25CF 25CE 25C7 25C6 25A1 25A0 25B3 25B2 25BD 25BC 2192 2190 2191 2193 2194 3013 226A 226B 221A 223D 221D 2235 222B 222C 2208 220B 2286 2287 2282 2283 222A 2229 2227 2228 FFE2"},
	{2, "21D2 21D4 2200 2203 00B4 FF5E 02C7 02D8 02DD 02DA 02D9 00B8 02DB 00A1 00BF 02D0 222E 2211 220F 00A4 2109 2030 25C1 25C0 25B7 25B6 2664 2660 2661 2665 2667 2663 2299 25C8 25A3 25D0 25D1 2592 25A4 25A5 25A8 25A7 25A6 25A9 2668 260F 260E 261C 261E 00B6 2020 2021 2195 2197 2199 2196 2198 266D 2669 266A 266C 327F 321C 2116 33C7 2122 33C2 33D8 2121 20AC 00AE ----*23"},
	{3, "FF01-FF3B FFE6 FF3D-FF5D FFE3"},
	{4, "3131-3163 ---- 3165-318E"},
	{5, "2170-2179 ----*5 2160-2169 ----*7 0391-03A1 03A3-03A9 ----*8 03B1-03C1 03C3-03C9 ----*6"},
	{6, "2500 2502 250C 2510 2518 2514 251C 252C 2524 2534 253C 2501 2503 250F 2513 251B 2517 2523 2533 252B 253B 254B 2520 252F 2528 2537 253F 251D 2530 2525 2538 2542 2512 2511 251A 2519 2516 2515 250E 250D 251E 251F 2521 2522 2526 2527 2529 252A 252D 252E 2531 2532 2535 2536 2539 253A 253D 253E 2540 2541 2543-254A ----*26"},
	{7, "3395-3397 2113 3398 33C4 33A3-33A6 3399-33A2 33CA 338D-338F 33CF 3388 3389 33C8 33A7 33A8 33B0-33B9 3380-3384 33BA-33BF 3390-3394 2126 33C0 33C1 338A-338C 33D6 33C5 33AD-33AF 33DB 33A9-33AC 33DD 33D0 33D3 33C3 33C9 33DC 33C6 ----*15"},
	{8, "00C6 00D0 00AA 0126 ---- 0132 ---- 013F 0141 00D8 0152 00BA 00DE 0166 014A ---- 3260-327B 24D0-24E9 2460-246E 00BD 2153 2154 00BC 00BE 215B-215E"},
	{9, "00E6 0111 00F0 0127 0131 0133 0138 0140 0142 00F8 0153 00DF 00FE 0167 014B 0149 3200-321B 249C-24B5 2474-2482 00B9 00B2 00B3 2074 207F 2081-2084"},
	{10, "3041-3093 ----*11"},
	{11, "30A1-30F6 ----*8"},
	{12, "0410-0415 0401 0416-042F ----*15 0430-0435 0451 0436-044F ----*13"},
	{16, "AC00 AC01 AC04 AC07-AC0A AC10-AC17 AC19-AC1D AC20 AC24 AC2C AC2D AC2F-AC31 AC38 AC39 AC3C AC40 AC4B AC4D AC54 AC58 AC5C AC70 AC71 AC74 AC77 AC78 AC7A AC80 AC81 AC83-AC86 AC89-AC8C AC90 AC94 AC9C AC9D AC9F-ACA1 ACA8-ACAA ACAC ACAF ACB0 ACB8 ACB9 ACBB-ACBD ACC1 ACC4 ACC8 ACCC ACD5 ACD7 ACE0 ACE1 ACE4 ACE7 ACE8 ACEA ACEC ACEF-ACF1 ACF3 ACF5 ACF6 ACFC ACFD AD00 AD04 AD06"},
	{42, "4F3D 4F73 5047 50F9 52A0 53EF 5475 54E5 5609 5AC1 5BB6 6687 67B6 67B7 67EF 6B4C 73C2 75C2 7A3C 82DB 8304 8857 8888 8A36 8CC8 8DCF 8EFB 8FE6 99D5 523B 5374 5404 606A 6164 6BBC 73CF 811A 89BA 89D2 95A3 4F83 520A 58BE 5978 59E6 5E72 5E79 61C7 63C0 6746 67EC 687F 6F97 764E 770B 78F5 7A08 7AFF 7C21 809D 826E 8271 8AEB 9593 4E6B 559D 66F7 6E34 78A3 7AED 845B 8910 874E 97A8 52D8 574E 582A 5D4C 611F 61BE 6221 6562 67D1 6A44 6E1B 7518 75B3 76E3 77B0 7D3A 90AF 9451 9452 9F95"},
}

const nothing = -1 // what read and model say of a cell that stands for nothing

// read is the scalars that a list of the document says, one by one.
func read(list string) ([]rune, error) {
	var l []rune
	for _, word := range strings.Fields(list) {
		more, err := readWord(word)
		if err != nil {
			return nil, fmt.Errorf("%s: %w", word, err)
		}
		l = append(l, more...)
	}
	return l, nil
}

func readWord(word string) ([]rune, error) {
	if word == "----" {
		return []rune{nothing}, nil
	}
	if n, ok := strings.CutPrefix(word, "----*"); ok {
		times, err := strconv.Atoi(n)
		if err != nil || times < 1 {
			return nil, fmt.Errorf("%d times: %v", times, err)
		}
		return slices.Repeat([]rune{nothing}, times), nil
	}
	from, to, ok := strings.Cut(word, "-")
	if !ok {
		to = from
	}
	a, err := strconv.ParseInt(from, 16, 32)
	if err != nil {
		return nil, err
	}
	b, err := strconv.ParseInt(to, 16, 32)
	if err != nil {
		return nil, err
	}
	var l []rune
	for u := a; u <= b; u++ {
		l = append(l, rune(u))
	}
	return l, nil
}

// place is a row and a cell.
type place struct{ row, cell int }

// model is the set by the document's lists, apart from the program.
type model struct {
	scalars map[place]rune // of the cells that stand for something
	places  map[rune]place // the first of each scalar
}

func newModel(t *testing.T) model {
	t.Helper()
	m := model{scalars: map[place]rune{}, places: map[rune]place{}}
	for _, c := range chapter {
		l, err := read(c.list)
		if err != nil || len(l) != 94 {
			t.Fatalf("row %d: a list of %d, %v", c.row, len(l), err)
		}
		for i, u := range l {
			if u == nothing {
				continue
			}
			p := place{c.row, i + 1}
			m.scalars[p] = u
			if _, ok := m.places[u]; !ok {
				m.places[u] = p
			}
		}
	}
	return m
}

func isListed(row int) bool { return 1 <= row && row <= 12 || row == 16 || row == 42 }

func (m model) checkRow(t *testing.T, row int) {
	t.Helper()
	l := ksc.Row(row)
	if !isListed(row) {
		if len(l) != 0 {
			t.Fatalf("Row(%d): %d scalars", row, len(l))
		}
		return
	}
	if len(l) != 94 {
		t.Fatalf("Row(%d): %d scalars", row, len(l))
	}
	for i, u := range l {
		want, ok := m.scalars[place{row, i + 1}]
		if !ok {
			want = 0xFFFD
		}
		if u != want {
			t.Fatalf("Row(%d) at %d: %04X, want %04X", row, i+1, u, want)
		}
	}
}

func (m model) checkScalar(t *testing.T, row, cell int) {
	t.Helper()
	want, wantOK := m.scalars[place{row, cell}]
	if u, ok := ksc.Scalar(row, cell); u != want || ok != wantOK {
		t.Fatalf("Scalar(%d, %d) = %04X, %v, want %04X, %v", row, cell, u, ok, want, wantOK)
	}
}

func (m model) checkPlace(t *testing.T, u rune) {
	t.Helper()
	want, wantOK := m.places[u]
	if row, cell, ok := ksc.Place(u); row != want.row || cell != want.cell || ok != wantOK {
		t.Fatalf("Place(%04X) = %d, %d, %v, want %d, %d, %v", u, row, cell, ok, want.row, want.cell, wantOK)
	}
}

// check holds all rows, all cells and the scalars of all of them.
func (m model) check(t *testing.T) {
	t.Helper()
	for row := 0; row <= 95; row++ {
		m.checkRow(t, row)
		for cell := 0; cell <= 95; cell++ {
			m.checkScalar(t, row, cell)
		}
	}
	for u := range m.places {
		for _, v := range []rune{u - 1, u, u + 1} {
			m.checkPlace(t, v)
		}
	}
}

// checkCell holds all calls at one cell that is known by eye; want is nothing, if it stands for nothing.
func checkCell(t *testing.T, row, cell int, want rune) {
	t.Helper()
	l := ksc.Row(row)
	if len(l) != 94 {
		t.Fatalf("Row(%d): %d scalars", row, len(l))
	}
	u, ok := ksc.Scalar(row, cell)
	if want == nothing {
		if u != 0 || ok || l[cell-1] != 0xFFFD {
			t.Errorf("row %d, cell %d: %04X, %v, listed %04X, want nothing", row, cell, u, ok, l[cell-1])
		}
		return
	}
	if u != want || !ok || l[cell-1] != want {
		t.Errorf("row %d, cell %d: %04X, %v, listed %04X, want %04X", row, cell, u, ok, l[cell-1], want)
	}
	if r, c, ok := ksc.Place(want); r != row || c != cell || !ok {
		t.Errorf("Place(%04X) = %d, %d, %v, want %d, %d", want, r, c, ok, row, cell)
	}
}

func checkNoScalar(t *testing.T, row, cell int) {
	t.Helper()
	if u, ok := ksc.Scalar(row, cell); u != 0 || ok {
		t.Errorf("Scalar(%d, %d) = %04X, %v", row, cell, u, ok)
	}
}

func checkNoPlace(t *testing.T, u rune) {
	t.Helper()
	if row, cell, ok := ksc.Place(u); row != 0 || cell != 0 || ok {
		t.Errorf("Place(%X) = %d, %d, %v", u, row, cell, ok)
	}
}

// noScalars are numbers that are no scalars, at both sides of what is one, and far away.
var noScalars = []rune{
	math.MinInt32, math.MinInt32 + 1, math.MinInt32 + 'A', math.MinInt32 + 0x3041, math.MinInt32 + 0xFF5E, math.MinInt32 + 0xFFFD, -0x1000000 + 'A', -0x1000000 + 0x3041, -0x110000, -0x10FFFF, -0x10000, -0xFFFD,
	-0xFF5E, -0x3041, -257, -256, -255, -0xA8, -0xA4, -0x80, -0x5C, -'A', -2, -1,
	0xD800, 0xD801, 0xD841, 0xDBFF, 0xDC00, 0xDC41, 0xDFFE, 0xDFFF,
	0x110000, 0x110001, 0x110000 + 'A', 0x113041, 0x11FF5E, 0x11FFFD, 0x200000 + 'A', 0x203041, 0x1000000 + 'A', 0x1003041, 0x100FF5E, 0x40000000 + 'A', 0x40003041, math.MaxInt32 - 0x7F, math.MaxInt32 - 1, math.MaxInt32,
}

// alike are numbers that a scalar could be taken for, if some of their bits were lost.
func alike(u rune) []rune {
	return []rune{-u, ^u, u - 0x100, u + 0x100, u - 0x10000, u + 0x10000, u + 0x110000, u + 0x1000000, u + 0x40000000, math.MinInt32 + (u & 0xFFFF)}
}

// farNumbers are rows and cells far outside, and such as become one if some of their bits are lost.
func farNumbers() []int {
	l := []int{math.MinInt, math.MinInt + 1, math.MinInt + 4, math.MinInt32, -1 << 32, -65536, math.MaxInt32, math.MaxInt32 + 1, math.MaxInt - 1, math.MaxInt}
	for n := range 96 {
		for _, far := range []int{1 << 8, 1 << 16, 1 << 31, 1 << 32, 1 << 40, math.MinInt} {
			l = append(l, n+far, -n-far)
		}
	}
	return l
}

// TestExamples: the chapter's.
func TestExamples(t *testing.T) {
	checkCell(t, 4, 1, 0x3131)
	if row, cell, ok := ksc.Place(0x3132); row != 4 || cell != 2 || !ok {
		t.Errorf("Place(3132) = %d, %d, %v", row, cell, ok)
	}
	if l := ksc.Row(94); len(l) != 0 {
		t.Errorf("Row(94): %04X", l)
	}
	for cell := range 96 {
		checkNoScalar(t, 94, cell)
	}
	checkSyllable(t, parts{0, 0, 1}, 0xAC01)
	checkSyllable(t, parts{18, 20, 27}, 0xD7A3)
	checkSyllable(t, parts{0, 1, 1}, 0xAC1D)
	checkNoSyllable(t, parts{19, 0, 0})
}

// TestRead: what the lists are held against is read as the chapter says.
func TestRead(t *testing.T) {
	for _, c := range []struct {
		list string
		want []rune
	}{
		{"00A0", []rune{0xA0}},
		{"00A0 20AC", []rune{0xA0, 0x20AC}},
		{"00A6-00A9", []rune{0xA6, 0xA7, 0xA8, 0xA9}},
		{"---- 00AD ----", []rune{nothing, 0xAD, nothing}},
		{"00A0 ----*3 00A4 ----*2", []rune{0xA0, nothing, nothing, nothing, 0xA4, nothing, nothing}},
	} {
		if l, err := read(c.list); err != nil || !slices.Equal(l, c.want) {
			t.Errorf("%s: %X, %v", c.list, l, err)
		}
	}
	for _, list := range []string{"00A0 x", "----*", "----*0", "00A0-", "-00A0"} {
		if l, err := read(list); err == nil {
			t.Errorf("%s: %X", list, l)
		}
	}
	for row := range 95 {
		n := 0
		for _, c := range chapter {
			if c.row == row {
				n++
			}
		}
		if isListed(row) != (n == 1) {
			t.Errorf("row %d has %d lists", row, n)
		}
	}
}

// Promise 16.1: rows and cells.

// TestLists: all rows and all cells, and all scalars.
func TestLists(t *testing.T) {
	newModel(t).check(t)
}

// TestCounts: how many cells of each row stand for something, as one counts them by eye.
func TestCounts(t *testing.T) {
	for row, want := range map[int]int{1: 94, 2: 71, 3: 94, 4: 93, 5: 68, 6: 68, 7: 79, 8: 91, 9: 94, 10: 83, 11: 86, 12: 66, 16: 94, 42: 94} {
		n := 0
		for cell := 1; cell <= 94; cell++ {
			if _, ok := ksc.Scalar(row, cell); ok {
				n++
			}
		}
		listed := 0
		for _, u := range ksc.Row(row) {
			if u != 0xFFFD {
				listed++
			}
		}
		if n != want || listed != want {
			t.Errorf("row %d: %d cells, %d listed, want %d", row, n, listed, want)
		}
	}
}

// TestEnds: the first and the last cell of every row, and its first and last scalar, as one finds them in the chapter by eye.
func TestEnds(t *testing.T) {
	for _, c := range []struct {
		row, first, last int // cells
		a, b             rune
	}{
		{1, 1, 94, 0x3000, 0xFFE2},
		{2, 1, 71, 0x21D2, 0x00AE},
		{3, 1, 94, 0xFF01, 0xFFE3},
		{4, 1, 94, 0x3131, 0x318E},
		{5, 1, 88, 0x2170, 0x03C9},
		{6, 1, 68, 0x2500, 0x254A},
		{7, 1, 79, 0x3395, 0x33C6},
		{8, 1, 94, 0x00C6, 0x215E},
		{9, 1, 94, 0x00E6, 0x2084},
		{10, 1, 83, 0x3041, 0x3093},
		{11, 1, 86, 0x30A1, 0x30F6},
		{12, 1, 81, 0x0410, 0x044F},
		{16, 1, 94, 0xAC00, 0xAD06},
		{42, 1, 94, 0x4F3D, 0x9F95},
	} {
		checkCell(t, c.row, c.first, c.a)
		checkCell(t, c.row, c.last, c.b)
		for cell := 1; cell < c.first; cell++ {
			checkCell(t, c.row, cell, nothing)
		}
		for cell := c.last + 1; cell <= 94; cell++ {
			checkCell(t, c.row, cell, nothing)
		}
		checkNoScalar(t, c.row, 0)
		checkNoScalar(t, c.row, 95)
	}
}

// TestNothing: exactly these stretches of cells stand for nothing, in rows that are listed.
func TestNothing(t *testing.T) {
	for row, stretches := range map[int][][2]int{
		1:  {},
		2:  {{72, 94}},
		3:  {},
		4:  {{52, 52}},
		5:  {{11, 15}, {26, 32}, {57, 64}, {89, 94}},
		6:  {{69, 94}},
		7:  {{80, 94}},
		8:  {{5, 5}, {7, 7}, {16, 16}},
		9:  {},
		10: {{84, 94}},
		11: {{87, 94}},
		12: {{34, 48}, {82, 94}},
		16: {},
		42: {},
	} {
		for cell := 1; cell <= 94; cell++ {
			if slices.ContainsFunc(stretches, func(s [2]int) bool { return s[0] <= cell && cell <= s[1] }) {
				checkCell(t, row, cell, nothing)
			} else if u, ok := ksc.Scalar(row, cell); u == 0 || !ok {
				t.Errorf("Scalar(%d, %d) = %04X, %v", row, cell, u, ok)
			}
		}
	}
}

// TestPlaces: some cells, those at both ends of the lists' stretches and beside them among them, as one finds them by eye.
func TestPlaces(t *testing.T) {
	for p, u := range map[place]rune{
		{1, 2}: 0x3001, {1, 3}: 0x3002, {1, 4}: 0xB7, {1, 5}: 0x2025, {1, 7}: 0xA8, {1, 9}: 0xAD, {1, 11}: 0x2225, {1, 12}: 0xFF3C, {1, 13}: 0x223C, {1, 19}: 0x3015, {1, 20}: 0x3008, {1, 29}: 0x3011, {1, 30}: 0xB1, {1, 31}: 0xD7, {1, 32}: 0xF7, {1, 33}: 0x2260, {1, 93}: 0x2228,
		{2, 2}: 0x21D4, {2, 3}: 0x2200, {2, 5}: 0xB4, {2, 6}: 0xFF5E, {2, 20}: 0xA4, {2, 69}: 0x2121, {2, 70}: 0x20AC,
		{3, 2}: 0xFF02, {3, 4}: 0xFF04, {3, 33}: 0xFF21, {3, 59}: 0xFF3B, {3, 60}: 0xFFE6, {3, 61}: 0xFF3D, {3, 93}: 0xFF5D,
		{4, 2}: 0x3132, {4, 50}: 0x3162, {4, 51}: 0x3163, {4, 53}: 0x3165, {4, 54}: 0x3166, {4, 93}: 0x318D,
		{5, 10}: 0x2179, {5, 16}: 0x2160, {5, 25}: 0x2169, {5, 33}: 0x0391, {5, 49}: 0x03A1, {5, 50}: 0x03A3, {5, 56}: 0x03A9, {5, 65}: 0x03B1, {5, 81}: 0x03C1, {5, 82}: 0x03C3,
		{6, 2}: 0x2502, {6, 3}: 0x250C, {6, 60}: 0x2541, {6, 61}: 0x2543, {6, 62}: 0x2544, {6, 67}: 0x2549,
		{7, 3}: 0x3397, {7, 4}: 0x2113, {7, 5}: 0x3398, {7, 6}: 0x33C4, {7, 7}: 0x33A3, {7, 10}: 0x33A6, {7, 11}: 0x3399, {7, 20}: 0x33A2, {7, 21}: 0x33CA, {7, 22}: 0x338D, {7, 31}: 0x33B0, {7, 40}: 0x33B9, {7, 41}: 0x3380, {7, 45}: 0x3384, {7, 46}: 0x33BA, {7, 51}: 0x33BF, {7, 52}: 0x3390, {7, 56}: 0x3394, {7, 57}: 0x2126, {7, 58}: 0x33C0, {7, 60}: 0x338A, {7, 69}: 0x33A9, {7, 72}: 0x33AC, {7, 73}: 0x33DD, {7, 78}: 0x33DC,
		{8, 2}: 0xD0, {8, 3}: 0xAA, {8, 4}: 0x0126, {8, 6}: 0x0132, {8, 8}: 0x013F, {8, 9}: 0x0141, {8, 15}: 0x014A, {8, 17}: 0x3260, {8, 44}: 0x327B, {8, 45}: 0x24D0, {8, 70}: 0x24E9, {8, 71}: 0x2460, {8, 85}: 0x246E, {8, 86}: 0xBD, {8, 88}: 0x2154, {8, 89}: 0xBC, {8, 90}: 0xBE, {8, 91}: 0x215B,
		{9, 2}: 0x0111, {9, 12}: 0xDF, {9, 16}: 0x0149, {9, 17}: 0x3200, {9, 44}: 0x321B, {9, 45}: 0x249C, {9, 70}: 0x24B5, {9, 71}: 0x2474, {9, 85}: 0x2482, {9, 86}: 0xB9, {9, 87}: 0xB2, {9, 88}: 0xB3, {9, 89}: 0x2074, {9, 90}: 0x207F, {9, 91}: 0x2081,
		{10, 2}: 0x3042, {10, 82}: 0x3092, {11, 2}: 0x30A2, {11, 85}: 0x30F5,
		{12, 6}: 0x0415, {12, 7}: 0x0401, {12, 8}: 0x0416, {12, 33}: 0x042F, {12, 49}: 0x0430, {12, 54}: 0x0435, {12, 55}: 0x0451, {12, 56}: 0x0436,
		{16, 2}: 0xAC01, {16, 3}: 0xAC04, {16, 4}: 0xAC07, {16, 7}: 0xAC0A, {16, 8}: 0xAC10, {16, 15}: 0xAC17, {16, 16}: 0xAC19, {16, 20}: 0xAC1D, {16, 21}: 0xAC20, {16, 22}: 0xAC24, {16, 93}: 0xAD04,
		{42, 2}: 0x4F73, {42, 3}: 0x5047, {42, 10}: 0x5AC1, {42, 11}: 0x5BB6, {42, 30}: 0x523B, {42, 93}: 0x9452,
	} {
		checkCell(t, p.row, p.cell, u)
	}
}

// TestOtherRows: rows that are not listed, those between the listed ones, those behind the last of them and those that are none at all.
func TestOtherRows(t *testing.T) {
	rows := []int{0, 13, 14, 15, 17, 18, 25, 40, 41, 43, 44, 93, 94, 95, 96, 116, 127, 128, 255, 256}
	for row := 1; row <= 1000; row++ {
		rows = append(rows, -row)
		if row > 42 {
			rows = append(rows, row)
		}
	}
	for _, row := range append(rows, farNumbers()...) {
		if l := ksc.Row(row); len(l) != 0 {
			t.Errorf("Row(%d): %d scalars", row, len(l))
		}
		for cell := -1; cell <= 96; cell++ {
			checkNoScalar(t, row, cell)
		}
	}
}

// TestOtherCells: cells that are none, in rows that are listed and in others.
func TestOtherCells(t *testing.T) {
	cells := []int{0}
	for n := 1; n <= 1000; n++ {
		cells = append(cells, -n)
		if n > 94 {
			cells = append(cells, n)
		}
	}
	cells = append(cells, farNumbers()...)
	for row := -1; row <= 96; row++ {
		for _, cell := range cells {
			checkNoScalar(t, row, cell)
		}
	}
	far := farNumbers()
	for i, row := range far {
		checkNoScalar(t, row, row)
		checkNoScalar(t, row, far[len(far)-1-i])
	}
}

// TestAround: all pairs of numbers around the rows and cells, so that neither's place is taken by the other.
func TestAround(t *testing.T) {
	m := newModel(t)
	for row := -300; row <= 300; row++ {
		m.checkRow(t, row)
		for cell := -300; cell <= 300; cell++ {
			m.checkScalar(t, row, cell)
		}
	}
}

// Promise 16.1: the places of scalars.

// TestEveryNumber: Place of every scalar, and of the numbers around them.
func TestEveryNumber(t *testing.T) {
	m := newModel(t)
	for u := rune(-0x11000); u < 0x121000; u++ {
		m.checkPlace(t, u)
	}
}

// TestNoScalars: what is no scalar has no place, not even where it is alike in its lowest bits.
func TestNoScalars(t *testing.T) {
	for _, u := range noScalars {
		checkNoPlace(t, u)
	}
	m := newModel(t)
	for u := range m.places {
		for _, v := range alike(u) {
			m.checkPlace(t, v)
		}
	}
}

// TestNoPlace: scalars that stand in no row: FFFD, which Row says of cells that stand for nothing, 0, which Scalar says of them, and those just beside stretches and single ones.
func TestNoPlace(t *testing.T) {
	for _, u := range []rune{
		0xFFFD, 0xFFFC, 0xFFFE, 0xFFFF, 0x1FFFD, 0x10FFFD,
		0, 1, 0x20, 'A', 0x5C, 0x7E, 0x7F, 0x80, 0xA0, 0xA2, 0xA3, 0xA5, 0xA6, 0xA9, 0xAB, 0xAC, 0xAF, 0xB5, 0xBB, 0xC0, 0xC5, 0xE0, 0xFF,
		0x0110, 0x0112, 0x0125, 0x0128, 0x0130, 0x0134, 0x013E, 0x0143, 0x0148, 0x0151, 0x0154, 0x0168, 0x02C6, 0x02C8, 0x02C9, 0x02CF, 0x02DC, 0x02DE,
		0x0390, 0x03A2, 0x03AA, 0x03B0, 0x03C2, 0x03CA, 0x0400, 0x0402, 0x040F, 0x0450, 0x0452,
		0x2014, 0x2016, 0x2075, 0x207E, 0x2080, 0x2085, 0x20A9, 0x20AB, 0x20AD, 0x2115, 0x2123, 0x2152, 0x2155, 0x215A, 0x215F, 0x216A, 0x216F, 0x217A, 0x2212,
		0x245F, 0x246F, 0x2473, 0x2483, 0x249B, 0x24B6, 0x24CF, 0x24EA, 0x24FF, 0x2504, 0x250B, 0x254C,
		0x2FFF, 0x3004, 0x3005, 0x3007, 0x3012, 0x3016, 0x3040, 0x3094, 0x30A0, 0x30F7, 0x30FB, 0x3130, 0x3164, 0x318F, 0x31FF, 0x321D, 0x325F, 0x327C, 0x327E, 0x3280,
		0x337F, 0x3385, 0x3387, 0x33CB, 0x33CE, 0x33D1, 0x33D2, 0x33D4, 0x33D7, 0x33D9, 0x33DA, 0x33DE,
		0x4E00, 0x4F3C, 0x4F3E, 0x9450, 0x9453, 0x9F94, 0x9F96, 0xABFF, 0xAC02, 0xAC03, 0xAC05, 0xAC06, 0xAC0B, 0xAC0F, 0xAC18, 0xAC1E, 0xAD05, 0xAD07, 0xD55C, 0xD7A3, 0xD7A4,
		0xFF00, 0xFF5F, 0xFF61, 0xFF9F, 0xFFDF, 0xFFE4, 0xFFE7, 0x10000, 0x1F600, 0x10FFFF,
	} {
		checkNoPlace(t, u)
	}
}

// TestDoubles: no scalar stands in two cells of the chapter, so every cell is the first one of its scalar.
func TestDoubles(t *testing.T) {
	m := newModel(t)
	if len(m.scalars) != len(m.places) {
		t.Errorf("%d cells stand for %d scalars", len(m.scalars), len(m.places))
	}
	for p, u := range m.scalars {
		if row, cell, ok := ksc.Place(u); row != p.row || cell != p.cell || !ok {
			t.Errorf("Place(%04X) = %d, %d, %v, want %d, %d", u, row, cell, ok, p.row, p.cell)
		}
	}
}

// Promise 16.1 and R4: what Row answers is its caller's.
func TestRowIsNew(t *testing.T) {
	m := newModel(t)
	for _, c := range chapter {
		l, other := ksc.Row(c.row), ksc.Row(c.row)
		before := slices.Clone(other)
		l = l[:cap(l)]
		for i := range l {
			l[i] = 'x'
		}
		if !slices.Equal(other, before) {
			t.Fatalf("row %d: two lists share memory", c.row)
		}
		checkNoPlace(t, 'x')
		m.check(t)
	}
}

// Promise 16.2.

// TestThereAndBack: Scalar of Place, and Place of Scalar, by the program's own answers.
func TestThereAndBack(t *testing.T) {
	scalars := 0
	for u := rune(0); u <= 0x10FFFF; u++ {
		row, cell, ok := ksc.Place(u)
		if !ok {
			continue
		}
		scalars++
		if back, ok := ksc.Scalar(row, cell); back != u || !ok {
			t.Errorf("%04X is at %d, %d, which is %04X, %v", u, row, cell, back, ok)
		}
		if l := ksc.Row(row); len(l) != 94 || l[cell-1] != u {
			t.Errorf("%04X is at %d, %d, of the list %04X", u, row, cell, l)
		}
	}
	cells := 0
	for row := 1; row <= 94; row++ {
		for cell := 1; cell <= 94; cell++ {
			u, ok := ksc.Scalar(row, cell)
			if !ok {
				continue
			}
			cells++
			r, c, ok := ksc.Place(u)
			if again, still := ksc.Scalar(r, c); !ok || r > row || r == row && c > cell || again != u || !still {
				t.Errorf("%d, %d is %04X, which is at %d, %d, %v, which is %04X, %v", row, cell, u, r, c, ok, again, still)
			}
		}
	}
	if scalars != 1175 || cells != 1175 {
		t.Errorf("%d scalars, %d cells", scalars, cells)
	}
}
