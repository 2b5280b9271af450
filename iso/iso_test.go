package iso_test

import (
	"fmt"
	"math"
	"slices"
	"strconv"
	"strings"
	"testing"

	"dragoman/api"
	"dragoman/iso"
)

// chapter is the document's lists, letter by letter.
var chapter = []struct {
	kind int
	list string
}{
	{api.ISO1, "00A0-00FF"},
	{api.ISO2, "00A0 0104 02D8 0141 00A4 013D 015A 00A7 00A8 0160 015E 0164 0179 00AD 017D 017B 00B0 0105 02DB 0142 00B4 013E 015B 02C7 00B8 0161 015F 0165 017A 02DD 017E 017C 0154 00C1 00C2 0102 00C4 0139 0106 00C7 010C 00C9 0118 00CB 011A 00CD 00CE 010E 0110 0143 0147 00D3 00D4 0150 00D6 00D7 0158 016E 00DA 0170 00DC 00DD 0162 00DF 0155 00E1 00E2 0103 00E4 013A 0107 00E7 010D 00E9 0119 00EB 011B 00ED 00EE 010F 0111 0144 0148 00F3 00F4 0151 00F6 00F7 0159 016F 00FA 0171 00FC 00FD 0163 02D9"},
	{api.ISO3, "00A0 0126 02D8 00A3 00A4 ---- 0124 00A7 00A8 0130 015E 011E 0134 00AD ---- 017B 00B0 0127 00B2-00B5 0125 00B7 00B8 0131 015F 011F 0135 00BD ---- 017C 00C0-00C2 ---- 00C4 010A 0108 00C7-00CF ---- 00D1-00D4 0120 00D6 00D7 011C 00D9-00DC 016C 015C 00DF-00E2 ---- 00E4 010B 0109 00E7-00EF ---- 00F1-00F4 0121 00F6 00F7 011D 00F9-00FC 016D 015D 02D9"},
	{api.ISO4, "00A0 0104 0138 0156 00A4 0128 013B 00A7 00A8 0160 0112 0122 0166 00AD 017D 00AF 00B0 0105 02DB 0157 00B4 0129 013C 02C7 00B8 0161 0113 0123 0167 014A 017E 014B 0100 00C1-00C6 012E 010C 00C9 0118 00CB 0116 00CD 00CE 012A 0110 0145 014C 0136 00D4-00D8 0172 00DA-00DC 0168 016A 00DF 0101 00E1-00E6 012F 010D 00E9 0119 00EB 0117 00ED 00EE 012B 0111 0146 014D 0137 00F4-00F8 0173 00FA-00FC 0169 016B 02D9"},
	{api.ISO5, "00A0 0401-040C 00AD 040E-044F 2116 0451-045C 00A7 045E 045F"},
	{api.ISO6, "00A0 ----*3 00A4 ----*7 060C 00AD ----*13 061B ----*3 061F ---- 0621-063A ----*5 0640-0652 ----*13"},
	{api.ISO7, "00A0 2018 2019 00A3 20AC 20AF 00A6-00A9 037A 00AB-00AD ---- 2015 00B0-00B3 0384-0386 00B7 0388-038A 00BB 038C 00BD 038E-03A1 ---- 03A3-03CE ----"},
	{api.ISO8, "00A0 ---- 00A2-00A9 00D7 00AB-00B9 00F7 00BB-00BE ----*32 2017 05D0-05EA ----*2 200E 200F ----"},
	{api.ISO9, "00A0-00CF 011E 00D1-00DC 0130 015E 00DF-00EF 011F 00F1-00FC 0131 015F 00FF"},
	{api.ISO10, "00A0 0104 0112 0122 012A 0128 0136 00A7 013B 0110 0160 0166 017D 00AD 016A 014A 00B0 0105 0113 0123 012B 0129 0137 00B7 013C 0111 0161 0167 017E 2015 016B 014B 0100 00C1-00C6 012E 010C 00C9 0118 00CB 0116 00CD-00D0 0145 014C 00D3-00D6 0168 00D8 0172 00DA-00DF 0101 00E1-00E6 012F 010D 00E9 0119 00EB 0117 00ED-00F0 0146 014D 00F3-00F6 0169 00F8 0173 00FA-00FE 0138"},
	{api.ISO11, "00A0 0E01-0E3A ----*4 0E3F-0E5B ----*4"},
	{api.ISO13, "00A0 201D 00A2-00A4 201E 00A6 00A7 00D8 00A9 0156 00AB-00AE 00C6 00B0-00B3 201C 00B5-00B7 00F8 00B9 0157 00BB-00BE 00E6 0104 012E 0100 0106 00C4 00C5 0118 0112 010C 00C9 0179 0116 0122 0136 012A 013B 0160 0143 0145 00D3 014C 00D5-00D7 0172 0141 015A 016A 00DC 017B 017D 00DF 0105 012F 0101 0107 00E4 00E5 0119 0113 010D 00E9 017A 0117 0123 0137 012B 013C 0161 0144 0146 00F3 014D 00F5-00F7 0173 0142 015B 016B 00FC 017C 017E 2019"},
	{api.ISO14, "00A0 1E02 1E03 00A3 010A 010B 1E0A 00A7 1E80 00A9 1E82 1E0B 1EF2 00AD 00AE 0178 1E1E 1E1F 0120 0121 1E40 1E41 00B6 1E56 1E81 1E57 1E83 1E60 1EF3 1E84 1E85 1E61 00C0-00CF 0174 00D1-00D6 1E6A 00D8-00DD 0176 00DF-00EF 0175 00F1-00F6 1E6B 00F8-00FD 0177 00FF"},
	{api.ISO15, "00A0-00A3 20AC 00A5 0160 00A7 0161 00A9-00B3 017D 00B5-00B7 017E 00B9-00BB 0152 0153 0178 00BF-00FF"},
	{api.ISO16, "00A0 0104 0105 0141 20AC 201E 0160 00A7 0161 00A9 0218 00AB 0179 00AD 017A 017B 00B0 00B1 010C 0142 017D 201D 00B6 00B7 017E 010D 0219 00BB 0152 0153 0178 017C 00C0-00C2 0102 00C4 0106 00C6-00CF 0110 0143 00D2-00D4 0150 00D6 015A 0170 00D9-00DC 0118 021A 00DF-00E2 0103 00E4 0107 00E6-00EF 0111 0144 00F2-00F4 0151 00F6 015B 0171 00F9-00FC 0119 021B 00FF"},
}

const nothing = -1 // what read and model say of a byte that stands for nothing

// read is the scalars that a list of the document says, one by one.
func read(list string) ([]rune, error) {
	var l []rune
	for _, word := range strings.Fields(list) {
		more, err := readWord(word)
		if err != nil {
			return nil, fmt.Errorf("%s: %w", word, err)
		}
		l = append(l, more...)
	}
	return l, nil
}

func readWord(word string) ([]rune, error) {
	if word == "----" {
		return []rune{nothing}, nil
	}
	if n, ok := strings.CutPrefix(word, "----*"); ok {
		times, err := strconv.Atoi(n)
		if err != nil || times < 1 {
			return nil, fmt.Errorf("%d times: %v", times, err)
		}
		return slices.Repeat([]rune{nothing}, times), nil
	}
	from, to, ok := strings.Cut(word, "-")
	if !ok {
		to = from
	}
	a, err := strconv.ParseInt(from, 16, 32)
	if err != nil {
		return nil, err
	}
	b, err := strconv.ParseInt(to, 16, 32)
	if err != nil {
		return nil, err
	}
	var l []rune
	for u := a; u <= b; u++ {
		l = append(l, rune(u))
	}
	return l, nil
}

// model is a kind by the document's lists, apart from the program.
type model struct {
	kind    int
	scalars []rune        // of all bytes
	bytes   map[rune]byte // the least of each scalar
}

// models are those of all kinds.
func models(t *testing.T) []model {
	t.Helper()
	var all []model
	for _, c := range chapter {
		m := model{kind: c.kind, bytes: map[rune]byte{}}
		for u := rune(0); u < 0xA0; u++ {
			m.scalars = append(m.scalars, u)
		}
		l, err := read(c.list)
		if err != nil || len(l) != 96 {
			t.Fatalf("kind %d: a list of %d, %v", c.kind, len(l), err)
		}
		m.scalars = append(m.scalars, l...)
		for b := 255; b >= 0; b-- {
			if u := m.scalars[b]; u != nothing {
				m.bytes[u] = byte(b)
			}
		}
		all = append(all, m)
	}
	return all
}

func (m model) checkScalar(t *testing.T, b byte) {
	t.Helper()
	want, wantOK := m.scalars[b], true
	if want == nothing {
		want, wantOK = 0, false
	}
	if u, ok := iso.Scalar(m.kind, b); u != want || ok != wantOK {
		t.Fatalf("Scalar(%d, %02X) = %04X, %v, want %04X, %v", m.kind, b, u, ok, want, wantOK)
	}
}

func (m model) checkByte(t *testing.T, u rune) {
	t.Helper()
	want, wantOK := m.bytes[u]
	if b, ok := iso.Byte(m.kind, u); b != want || ok != wantOK {
		t.Fatalf("Byte(%d, %04X) = %02X, %v, want %02X, %v", m.kind, u, b, ok, want, wantOK)
	}
}

func (m model) checkFlat(t *testing.T) {
	t.Helper()
	l := iso.Flat(m.kind)
	if len(l) != 256 {
		t.Fatalf("Flat(%d): %d scalars", m.kind, len(l))
	}
	for b, want := range m.scalars {
		if want == nothing {
			want = 0xFFFD
		}
		if l[b] != want {
			t.Fatalf("Flat(%d) at %02X: %04X, want %04X", m.kind, b, l[b], want)
		}
	}
}

// check holds a kind at all its bytes, at its scalars, at those beside them, and at its flat list.
func (m model) check(t *testing.T) {
	t.Helper()
	if !iso.Has(m.kind) {
		t.Fatalf("Has(%d) = false", m.kind)
	}
	for b := range 256 {
		m.checkScalar(t, byte(b))
	}
	for _, u := range m.scalars {
		for _, v := range []rune{u - 1, u, u + 1} {
			m.checkByte(t, v)
		}
	}
	m.checkFlat(t)
}

// noScalars are numbers that are no scalars, at both sides of what is one, and far away.
var noScalars = []rune{
	math.MinInt32, math.MinInt32 + 1, math.MinInt32 + 'A', math.MinInt32 + 0xA0, math.MinInt32 + 0xFFFD, -0x1000000 + 'A', -0x110000, -0x10FFFF, -0x10000, -0xFFFD,
	-0x20AC, -257, -256, -255, -0xA1, -0xA0, -0x9F, -129, -128, -127, -0x60, -'A', -2, -1,
	0xD800, 0xD801, 0xDBFF, 0xDC00, 0xDFFE, 0xDFFF,
	0x110000, 0x110001, 0x110000 + 'A', 0x1100A0, 0x11FFFD, 0x200000 + 'A', 0x1000000 + 'A', 0x10000A0, 0x10FFFFA0, 0x40000000 + 'A', math.MaxInt32 - 0x5F, math.MaxInt32 - 1, math.MaxInt32,
}

// TestExample: the chapter's.
func TestExample(t *testing.T) {
	if u, ok := iso.Scalar(api.ISO1, 0xA5); u != 0xA5 || !ok {
		t.Errorf("Scalar: %04X, %v", u, ok)
	}
	if b, ok := iso.Byte(api.ISO1, 0xA5); b != 0xA5 || !ok {
		t.Errorf("Byte: %02X, %v", b, ok)
	}
	for _, kind := range []int{-1, 0, api.KOI8R} {
		checkNoKind(t, kind)
	}
}

// TestRead: what the lists are held against is read as the chapter says.
func TestRead(t *testing.T) {
	for _, c := range []struct {
		list string
		want []rune
	}{
		{"00A0", []rune{0xA0}},
		{"00A0 20AC", []rune{0xA0, 0x20AC}},
		{"00A6-00A9", []rune{0xA6, 0xA7, 0xA8, 0xA9}},
		{"---- 00AD ----", []rune{nothing, 0xAD, nothing}},
		{"00A0 ----*3 00A4 ----*2", []rune{0xA0, nothing, nothing, nothing, 0xA4, nothing, nothing}},
	} {
		if l, err := read(c.list); err != nil || !slices.Equal(l, c.want) {
			t.Errorf("%s: %X, %v", c.list, l, err)
		}
	}
	for _, list := range []string{"00A0 x", "----*", "----*0", "00A0-", "-00A0"} {
		if l, err := read(list); err == nil {
			t.Errorf("%s: %X", list, l)
		}
	}
	if n := len(models(t)); n != 15 {
		t.Errorf("%d lists", n)
	}
}

// Promises 9.1 and 9.2: the kinds, byte by byte.

// TestLists: all bytes of every kind, and all its scalars.
func TestLists(t *testing.T) {
	for _, m := range models(t) {
		m.check(t)
	}
}

// TestBelow: the bytes below A0 are the same in every kind, those of 80 to 9F among them.
func TestBelow(t *testing.T) {
	for _, m := range models(t) {
		l := iso.Flat(m.kind)
		for n := range 0xA0 {
			if u, ok := iso.Scalar(m.kind, byte(n)); u != rune(n) || !ok {
				t.Errorf("Scalar(%d, %02X) = %04X, %v", m.kind, n, u, ok)
			}
			if b, ok := iso.Byte(m.kind, rune(n)); b != byte(n) || !ok {
				t.Errorf("Byte(%d, %04X) = %02X, %v", m.kind, n, b, ok)
			}
			if len(l) != 256 || l[n] != rune(n) {
				t.Fatalf("Flat(%d) at %02X: %04X", m.kind, n, l)
			}
		}
	}
}

// TestEnds: 9F, A0 and FF of every kind, as one finds them in the chapter by eye.
func TestEnds(t *testing.T) {
	last := map[int]rune{
		api.ISO1: 0x00FF, api.ISO2: 0x02D9, api.ISO3: 0x02D9, api.ISO4: 0x02D9, api.ISO5: 0x045F,
		api.ISO6: nothing, api.ISO7: nothing, api.ISO8: nothing, api.ISO9: 0x00FF, api.ISO10: 0x0138,
		api.ISO11: nothing, api.ISO13: 0x2019, api.ISO14: 0x00FF, api.ISO15: 0x00FF, api.ISO16: 0x00FF,
	}
	for kind, end := range last {
		for b, want := range map[byte]rune{0x9F: 0x9F, 0xA0: 0xA0, 0xFF: end} {
			checkPlace(t, kind, b, want)
		}
	}
}

// TestPlaces: some bytes at both ends of the lists' stretches, as one finds them by eye.
func TestPlaces(t *testing.T) {
	for _, c := range []struct {
		kind int
		b    byte
		u    rune
	}{
		{api.ISO1, 0xFE, 0xFE}, {api.ISO2, 0xA1, 0x0104}, {api.ISO2, 0xFE, 0x0163},
		{api.ISO3, 0xB2, 0xB2}, {api.ISO3, 0xB5, 0xB5}, {api.ISO3, 0xB6, 0x0125}, {api.ISO3, 0xFC, 0xFC}, {api.ISO3, 0xFD, 0x016D},
		{api.ISO4, 0xC0, 0x0100}, {api.ISO4, 0xC1, 0xC1}, {api.ISO4, 0xC6, 0xC6}, {api.ISO4, 0xC7, 0x012E},
		{api.ISO5, 0xA1, 0x0401}, {api.ISO5, 0xAC, 0x040C}, {api.ISO5, 0xAD, 0xAD}, {api.ISO5, 0xAE, 0x040E}, {api.ISO5, 0xEF, 0x044F}, {api.ISO5, 0xF0, 0x2116}, {api.ISO5, 0xFC, 0x045C}, {api.ISO5, 0xFD, 0xA7}, {api.ISO5, 0xFE, 0x045E},
		{api.ISO6, 0xA4, 0xA4}, {api.ISO6, 0xAC, 0x060C}, {api.ISO6, 0xBB, 0x061B}, {api.ISO6, 0xBF, 0x061F}, {api.ISO6, 0xC1, 0x0621}, {api.ISO6, 0xDA, 0x063A}, {api.ISO6, 0xE0, 0x0640}, {api.ISO6, 0xF2, 0x0652},
		{api.ISO7, 0xA4, 0x20AC}, {api.ISO7, 0xA5, 0x20AF}, {api.ISO7, 0xAF, 0x2015}, {api.ISO7, 0xBE, 0x038E}, {api.ISO7, 0xD1, 0x03A1}, {api.ISO7, 0xD3, 0x03A3}, {api.ISO7, 0xFE, 0x03CE},
		{api.ISO8, 0xAA, 0xD7}, {api.ISO8, 0xBA, 0xF7}, {api.ISO8, 0xBE, 0xBE}, {api.ISO8, 0xDF, 0x2017}, {api.ISO8, 0xE0, 0x05D0}, {api.ISO8, 0xFA, 0x05EA}, {api.ISO8, 0xFD, 0x200E}, {api.ISO8, 0xFE, 0x200F},
		{api.ISO9, 0xCF, 0xCF}, {api.ISO9, 0xD0, 0x011E}, {api.ISO9, 0xFD, 0x0131}, {api.ISO9, 0xFE, 0x015F},
		{api.ISO10, 0xBD, 0x2015}, {api.ISO10, 0xFE, 0xFE},
		{api.ISO11, 0xA1, 0x0E01}, {api.ISO11, 0xDA, 0x0E3A}, {api.ISO11, 0xDF, 0x0E3F}, {api.ISO11, 0xFB, 0x0E5B},
		{api.ISO13, 0xA1, 0x201D}, {api.ISO13, 0xAF, 0xC6}, {api.ISO13, 0xFE, 0x017E},
		{api.ISO14, 0xA1, 0x1E02}, {api.ISO14, 0xBF, 0x1E61}, {api.ISO14, 0xC0, 0xC0}, {api.ISO14, 0xFE, 0x0177},
		{api.ISO15, 0xA4, 0x20AC}, {api.ISO15, 0xBC, 0x0152}, {api.ISO15, 0xBE, 0x0178}, {api.ISO15, 0xBF, 0xBF},
		{api.ISO16, 0xA4, 0x20AC}, {api.ISO16, 0xDE, 0x021A}, {api.ISO16, 0xFE, 0x021B},
	} {
		checkPlace(t, c.kind, c.b, c.u)
	}
}

// checkPlace holds all calls at one byte, and at its scalar if it has one.
func checkPlace(t *testing.T, kind int, b byte, want rune) {
	t.Helper()
	l := iso.Flat(kind)
	if len(l) != 256 {
		t.Fatalf("Flat(%d): %d scalars", kind, len(l))
	}
	u, ok := iso.Scalar(kind, b)
	if want == nothing {
		if u != 0 || ok || l[b] != 0xFFFD {
			t.Errorf("kind %d, byte %02X: %04X, %v, flat %04X, want nothing", kind, b, u, ok, l[b])
		}
		return
	}
	if u != want || !ok || l[b] != want {
		t.Errorf("kind %d, byte %02X: %04X, %v, flat %04X, want %04X", kind, b, u, ok, l[b], want)
	}
	if back, ok := iso.Byte(kind, want); back != b || !ok {
		t.Errorf("Byte(%d, %04X) = %02X, %v, want %02X", kind, want, back, ok, b)
	}
}

// TestNothing: exactly these bytes stand for nothing, alone, in a row and at the lists' ends.
func TestNothing(t *testing.T) {
	rows := map[int][][2]int{
		api.ISO3:  {{0xA5, 0xA5}, {0xAE, 0xAE}, {0xBE, 0xBE}, {0xC3, 0xC3}, {0xD0, 0xD0}, {0xE3, 0xE3}, {0xF0, 0xF0}},
		api.ISO6:  {{0xA1, 0xA3}, {0xA5, 0xAB}, {0xAE, 0xBA}, {0xBC, 0xBE}, {0xC0, 0xC0}, {0xDB, 0xDF}, {0xF3, 0xFF}},
		api.ISO7:  {{0xAE, 0xAE}, {0xD2, 0xD2}, {0xFF, 0xFF}},
		api.ISO8:  {{0xA1, 0xA1}, {0xBF, 0xDE}, {0xFB, 0xFC}, {0xFF, 0xFF}},
		api.ISO11: {{0xDB, 0xDE}, {0xFC, 0xFF}},
	}
	for _, c := range chapter {
		l := iso.Flat(c.kind)
		if len(l) != 256 {
			t.Fatalf("Flat(%d): %d scalars", c.kind, len(l))
		}
		for b := range 256 {
			empty := slices.ContainsFunc(rows[c.kind], func(r [2]int) bool { return r[0] <= b && b <= r[1] })
			u, ok := iso.Scalar(c.kind, byte(b))
			if ok == empty || empty && u != 0 || (l[b] == 0xFFFD) != empty {
				t.Errorf("kind %d, byte %02X: %04X, %v, flat %04X", c.kind, b, u, ok, l[b])
			}
		}
	}
}

// Promise 9.1: the bytes of scalars.

// TestEveryNumber: Byte of every scalar in every kind, and of the numbers around them.
func TestEveryNumber(t *testing.T) {
	for _, m := range models(t) {
		for u := rune(-0x11000); u < 0x121000; u++ {
			m.checkByte(t, u)
		}
	}
}

// TestNoScalars: what is no scalar has no byte, not even where it is alike in its lowest bits.
func TestNoScalars(t *testing.T) {
	for _, m := range models(t) {
		for _, u := range noScalars {
			if b, ok := iso.Byte(m.kind, u); b != 0 || ok {
				t.Errorf("Byte(%d, %X) = %02X, %v", m.kind, u, b, ok)
			}
		}
		for _, u := range m.scalars {
			for _, v := range []rune{-u, ^u, u - 0x100, u + 0x100, u - 0x10000, u + 0x10000, u + 0x110000, u + 0x1000000, u + 0x40000000, math.MinInt32 + (u & 0xFFFF)} {
				m.checkByte(t, v)
			}
		}
	}
}

// TestMissing: FFFD is what Flat says of a byte that stands for nothing; no byte stands for it.
func TestMissing(t *testing.T) {
	for _, m := range models(t) {
		for _, u := range []rune{0xFFFD, 0xFFFC, 0xFFFE, 0xFFFF, 0x1FFFD, 0x10FFFD} {
			if b, ok := iso.Byte(m.kind, u); b != 0 || ok {
				t.Errorf("Byte(%d, %X) = %02X, %v", m.kind, u, b, ok)
			}
		}
	}
}

// TestNoPlace: scalars just beside stretches and single ones, which no byte of the kind stands for.
func TestNoPlace(t *testing.T) {
	for kind, l := range map[int][]rune{
		api.ISO1:  {0x0100, 0x0152, 0x20AC},
		api.ISO2:  {0xA1, 0xA5, 0xC0, 0xC3, 0x0100, 0x0101, 0x02DA, 0x02DE},
		api.ISO3:  {0xA1, 0xA5, 0xB1, 0xB6, 0xBE, 0xC3, 0xC5, 0xC6, 0xD0, 0xD5, 0xD8, 0xDD, 0xDE, 0xE3, 0xF0, 0xF5, 0xF8, 0xFD, 0xFE, 0xFF},
		api.ISO4:  {0xC0, 0xC7, 0xC8, 0xD3, 0xD9, 0xDD, 0xDE, 0xE0, 0xE7, 0xF3, 0xF9, 0xFD, 0xFE, 0xFF},
		api.ISO5:  {0xA1, 0xFF, 0x0400, 0x040D, 0x0450, 0x045D, 0x0460, 0x2115, 0x2117},
		api.ISO6:  {0xA1, 0xA3, 0xA5, 0x060B, 0x060D, 0x061A, 0x061C, 0x061E, 0x0620, 0x063B, 0x063F, 0x0653},
		api.ISO7:  {0xA5, 0xAA, 0xAE, 0xAF, 0x0383, 0x0387, 0x038B, 0x038D, 0x03A2, 0x03CF, 0x2014, 0x2017, 0x201A, 0x20AB, 0x20AD, 0x20AE, 0x20B0},
		api.ISO8:  {0xA1, 0xAA, 0xBA, 0xBF, 0xD6, 0xD8, 0xF6, 0xF8, 0x05CF, 0x05EB, 0x200D, 0x2010, 0x2016, 0x2018},
		api.ISO9:  {0xD0, 0xDD, 0xDE, 0xF0, 0xFD, 0xFE, 0x0100, 0x011D, 0x0120, 0x012F, 0x0132, 0x015D, 0x0160},
		api.ISO10: {0xC0, 0xC7, 0xC8, 0xCC, 0xD1, 0xD2, 0xD7, 0xD9, 0xE0, 0xE7, 0xEC, 0xF1, 0xF2, 0xF7, 0xF9, 0xFF, 0x2014, 0x2016},
		api.ISO11: {0xA1, 0xFF, 0x0E00, 0x0E3B, 0x0E3C, 0x0E3D, 0x0E3E, 0x0E5C},
		api.ISO13: {0xA1, 0xA5, 0xA8, 0xAA, 0xAF, 0xB4, 0xB8, 0xBA, 0xBF, 0xD4, 0xD9, 0xF4, 0xF9, 0x2018, 0x201A, 0x201F},
		api.ISO14: {0xA1, 0xD0, 0xD7, 0xDE, 0xF0, 0xF7, 0xFE, 0x1E01, 0x1E04, 0x1E86, 0x1EF1, 0x1EF4},
		api.ISO15: {0xA4, 0xA6, 0xA8, 0xB4, 0xB8, 0xBC, 0xBD, 0xBE, 0x0100, 0x0151, 0x0154, 0x0177, 0x0179, 0x20AB, 0x20AD},
		api.ISO16: {0xA1, 0xC3, 0xC5, 0xD0, 0xD1, 0xD5, 0xD7, 0xD8, 0xDD, 0xDE, 0xE3, 0xE5, 0xF0, 0xF1, 0xF5, 0xF7, 0xF8, 0xFD, 0xFE, 0x0217, 0x021C},
	} {
		for _, u := range l {
			if b, ok := iso.Byte(kind, u); b != 0 || ok {
				t.Errorf("Byte(%d, %04X) = %02X, %v", kind, u, b, ok)
			}
		}
	}
}

// TestDoubles: no list of the chapter says a scalar twice, so every byte is the least one of its scalar.
func TestDoubles(t *testing.T) {
	for _, m := range models(t) {
		for b, u := range m.scalars {
			if u == nothing {
				continue
			}
			if got, ok := iso.Byte(m.kind, u); int(got) != b || !ok {
				t.Errorf("Byte(%d, %04X) = %02X, %v, want %02X", m.kind, u, got, ok, b)
			}
		}
	}
}

// Promises 9.1 and 9.2: kinds that are none of these.

func isKind(kind int) bool { return 21 <= kind && kind <= 31 || 33 <= kind && kind <= 36 }

// checkNoKind holds all calls at a kind that is none of these.
func checkNoKind(t *testing.T, kind int) {
	t.Helper()
	if iso.Has(kind) {
		t.Errorf("Has(%d) = true", kind)
	}
	if l := iso.Flat(kind); len(l) != 0 {
		t.Errorf("Flat(%d): %d scalars", kind, len(l))
	}
	for b := range 256 {
		if u, ok := iso.Scalar(kind, byte(b)); u != 0 || ok {
			t.Errorf("Scalar(%d, %02X) = %04X, %v", kind, b, u, ok)
		}
	}
	check := func(u rune) {
		if b, ok := iso.Byte(kind, u); b != 0 || ok {
			t.Errorf("Byte(%d, %X) = %02X, %v", kind, u, b, ok)
		}
	}
	for u := range rune(0x500) {
		check(u)
	}
	for _, u := range []rune{0x05D0, 0x0621, 0x0E01, 0x1E02, 0x2015, 0x2116, 0x20AC, 0xFFFC, 0xFFFD, 0xFFFE, 0x1F600, 0x10FFFF} {
		check(u)
	}
	for _, u := range noScalars {
		check(u)
	}
}

// TestKinds: which numbers are kinds, and what is told of those that are none.
func TestKinds(t *testing.T) {
	has := map[int]bool{}
	for _, c := range chapter {
		has[c.kind] = true
	}
	for kind := -2000; kind <= 2000; kind++ {
		if isKind(kind) != has[kind] || isKind(kind) != iso.Has(kind) {
			t.Errorf("Has(%d) = %v", kind, iso.Has(kind))
		}
		if !isKind(kind) {
			checkNoKind(t, kind)
		}
	}
	for _, kind := range []int{math.MinInt, math.MinInt + 21, math.MinInt32, -1 << 32, -65536, math.MaxInt32, 1 << 31, 1 << 32, math.MaxInt - 20, math.MaxInt} {
		checkNoKind(t, kind)
	}
	for kind := 21; kind <= 36; kind++ {
		for _, far := range []int{1 << 8, 1 << 16, 1 << 31, 1 << 32, 1 << 40, math.MinInt} {
			checkNoKind(t, kind+far)
			checkNoKind(t, -kind-far)
		}
		checkNoKind(t, -kind)
		checkNoKind(t, ^kind)
	}
}

// TestOtherLayers: the kinds of the other layers, and the numbers beside those of this one.
func TestOtherLayers(t *testing.T) {
	for _, kind := range []int{
		api.ASCII, api.UTF8, api.UTF16BE, api.UTF16LE, api.UTF16, api.UTF32BE, api.UTF32LE, api.UTF32, api.UCS2BE, api.UCS2LE, api.UTF7,
		api.KOI8R, api.KOI8U, api.CP1250, api.CP1251, api.CP1252, api.CP1253, api.CP1254, api.CP1255, api.CP1256, api.CP1257, api.CP1258,
		api.CP437, api.CP850, api.CP852, api.CP855, api.CP866, api.MacRoman, api.MacCyr, api.CP037, api.CP500, api.CP1026,
		api.JIS0201, api.EUCJP, api.ShiftJIS, api.ISO2022JP, api.EUCCN, api.HZ, api.EUCKR, api.JOHAB, api.ISO2022KR, api.MostKind + 1,
		api.ISO1 - 1, api.ISO11 + 1, api.ISO13 - 1, api.ISO16 + 1, 0, -1,
	} {
		checkNoKind(t, kind)
	}
}

// Promise 9.2 and R4: what Flat answers is its caller's.
func TestFlatIsNew(t *testing.T) {
	all := models(t)
	for _, m := range all {
		l, other := iso.Flat(m.kind), iso.Flat(m.kind)
		before := slices.Clone(other)
		l = l[:cap(l)]
		for i := range l {
			l[i] = 'x'
		}
		if !slices.Equal(other, before) {
			t.Fatalf("kind %d: two lists share memory", m.kind)
		}
		for _, each := range all {
			each.check(t)
		}
	}
}

// Promise 9.3.

// TestThereAndBack: Scalar of Byte, and Byte of Scalar, by the program's own answers.
func TestThereAndBack(t *testing.T) {
	for _, c := range chapter {
		bytes, scalars := 0, 0
		for n := range 256 {
			u, ok := iso.Scalar(c.kind, byte(n))
			if !ok {
				continue
			}
			bytes++
			b, ok := iso.Byte(c.kind, u)
			if again, still := iso.Scalar(c.kind, b); !ok || int(b) > n || again != u || !still {
				t.Errorf("kind %d: %02X is %04X, which is %02X, %v, which is %04X, %v", c.kind, n, u, b, ok, again, still)
			}
		}
		for u := rune(0); u <= 0x10FFFF; u++ {
			b, ok := iso.Byte(c.kind, u)
			if !ok {
				continue
			}
			scalars++
			if back, ok := iso.Scalar(c.kind, b); back != u || !ok {
				t.Errorf("kind %d: %04X is %02X, which is %04X, %v", c.kind, u, b, back, ok)
			}
		}
		if bytes != scalars || bytes < 211 {
			t.Errorf("kind %d: %d bytes and %d scalars", c.kind, bytes, scalars)
		}
	}
}
