package windows_test

import (
	"fmt"
	"math"
	"slices"
	"strconv"
	"strings"
	"testing"

	"dragoman/api"
	"dragoman/windows"
)

// chapter is the document's lists, letter by letter.
var chapter = []struct {
	kind int
	list string
}{
	{api.KOI8R, "2500 2502 250C 2510 2514 2518 251C 2524 252C 2534 253C 2580 2584 2588 258C 2590-2593 2320 25A0 2219 221A 2248 2264 2265 00A0 2321 00B0 00B2 00B7 00F7 2550-2552 0451 2553-2561 0401 2562-256C 00A9 044E 0430 0431 0446 0434 0435 0444 0433 0445 0438-043F 044F 0440-0443 0436 0432 044C 044B 0437 0448 044D 0449 0447 044A 042E 0410 0411 0426 0414 0415 0424 0413 0425 0418-041F 042F 0420-0423 0416 0412 042C 042B 0417 0428 042D 0429 0427 042A"},
	{api.KOI8U, "2500 2502 250C 2510 2514 2518 251C 2524 252C 2534 253C 2580 2584 2588 258C 2590-2593 2320 25A0 2219 221A 2248 2264 2265 00A0 2321 00B0 00B2 00B7 00F7 2550-2552 0451 0454 2554 0456 0457 2557-255B 0491 255D-2561 0401 0404 2563 0406 0407 2566-256A 0490 256C 00A9 044E 0430 0431 0446 0434 0435 0444 0433 0445 0438-043F 044F 0440-0443 0436 0432 044C 044B 0437 0448 044D 0449 0447 044A 042E 0410 0411 0426 0414 0415 0424 0413 0425 0418-041F 042F 0420-0423 0416 0412 042C 042B 0417 0428 042D 0429 0427 042A"},
	{api.CP1250, "20AC ---- 201A ---- 201E 2026 2020 2021 ---- 2030 0160 2039 015A 0164 017D 0179 ---- 2018 2019 201C 201D 2022 2013 2014 ---- 2122 0161 203A 015B 0165 017E 017A 00A0 02C7 02D8 0141 00A4 0104 00A6-00A9 015E 00AB-00AE 017B 00B0 00B1 02DB 0142 00B4-00B8 0105 015F 00BB 013D 02DD 013E 017C 0154 00C1 00C2 0102 00C4 0139 0106 00C7 010C 00C9 0118 00CB 011A 00CD 00CE 010E 0110 0143 0147 00D3 00D4 0150 00D6 00D7 0158 016E 00DA 0170 00DC 00DD 0162 00DF 0155 00E1 00E2 0103 00E4 013A 0107 00E7 010D 00E9 0119 00EB 011B 00ED 00EE 010F 0111 0144 0148 00F3 00F4 0151 00F6 00F7 0159 016F 00FA 0171 00FC 00FD 0163 02D9"},
	{api.CP1251, "0402 0403 201A 0453 201E 2026 2020 2021 20AC 2030 0409 2039 040A 040C 040B 040F 0452 2018 2019 201C 201D 2022 2013 2014 ---- 2122 0459 203A 045A 045C 045B 045F 00A0 040E 045E 0408 00A4 0490 00A6 00A7 0401 00A9 0404 00AB-00AE 0407 00B0 00B1 0406 0456 0491 00B5-00B7 0451 2116 0454 00BB 0458 0405 0455 0457 0410-044F"},
	{api.CP1252, "20AC ---- 201A 0192 201E 2026 2020 2021 02C6 2030 0160 2039 0152 ---- 017D ----*2 2018 2019 201C 201D 2022 2013 2014 02DC 2122 0161 203A 0153 ---- 017E 0178 00A0-00FF"},
	{api.CP1253, "20AC ---- 201A 0192 201E 2026 2020 2021 ---- 2030 ---- 2039 ----*5 2018 2019 201C 201D 2022 2013 2014 ---- 2122 ---- 203A ----*4 00A0 0385 0386 00A3-00A9 ---- 00AB-00AE 2015 00B0-00B3 0384 00B5-00B7 0388-038A 00BB 038C 00BD 038E-03A1 ---- 03A3-03CE ----"},
	{api.CP1254, "20AC ---- 201A 0192 201E 2026 2020 2021 02C6 2030 0160 2039 0152 ----*4 2018 2019 201C 201D 2022 2013 2014 02DC 2122 0161 203A 0153 ----*2 0178 00A0-00CF 011E 00D1-00DC 0130 015E 00DF-00EF 011F 00F1-00FC 0131 015F 00FF"},
	{api.CP1255, "20AC ---- 201A 0192 201E 2026 2020 2021 02C6 2030 ---- 2039 ----*5 2018 2019 201C 201D 2022 2013 2014 02DC 2122 ---- 203A ----*4 00A0-00A3 20AA 00A5-00A9 00D7 00AB-00B9 00F7 00BB-00BF 05B0-05B9 ---- 05BB-05C3 05F0-05F4 ----*7 05D0-05EA ----*2 200E 200F ----"},
	{api.CP1256, "20AC 067E 201A 0192 201E 2026 2020 2021 02C6 2030 0679 2039 0152 0686 0698 0688 06AF 2018 2019 201C 201D 2022 2013 2014 06A9 2122 0691 203A 0153 200C 200D 06BA 00A0 060C 00A2-00A9 06BE 00AB-00B9 061B 00BB-00BE 061F 06C1 0621-0636 00D7 0637-063A 0640-0643 00E0 0644 00E2 0645-0648 00E7-00EB 0649 064A 00EE 00EF 064B-064E 00F4 064F 0650 00F7 0651 00F9 0652 00FB 00FC 200E 200F 06D2"},
	{api.CP1257, "20AC ---- 201A ---- 201E 2026 2020 2021 ---- 2030 ---- 2039 ---- 00A8 02C7 00B8 ---- 2018 2019 201C 201D 2022 2013 2014 ---- 2122 ---- 203A ---- 00AF 02DB ---- 00A0 ---- 00A2-00A4 ---- 00A6 00A7 00D8 00A9 0156 00AB-00AE 00C6 00B0-00B7 00F8 00B9 0157 00BB-00BE 00E6 0104 012E 0100 0106 00C4 00C5 0118 0112 010C 00C9 0179 0116 0122 0136 012A 013B 0160 0143 0145 00D3 014C 00D5-00D7 0172 0141 015A 016A 00DC 017B 017D 00DF 0105 012F 0101 0107 00E4 00E5 0119 0113 010D 00E9 017A 0117 0123 0137 012B 013C 0161 0144 0146 00F3 014D 00F5-00F7 0173 0142 015B 016B 00FC 017C 017E 02D9"},
}

const nothing = -1 // what read and model say of a byte that stands for nothing

// read is the scalars that a list of the document says, one by one.
func read(list string) ([]rune, error) {
	var l []rune
	for _, word := range strings.Fields(list) {
		more, err := readWord(word)
		if err != nil {
			return nil, fmt.Errorf("%s: %w", word, err)
		}
		l = append(l, more...)
	}
	return l, nil
}

func readWord(word string) ([]rune, error) {
	if word == "----" {
		return []rune{nothing}, nil
	}
	if n, ok := strings.CutPrefix(word, "----*"); ok {
		times, err := strconv.Atoi(n)
		if err != nil || times < 1 {
			return nil, fmt.Errorf("%d times: %v", times, err)
		}
		return slices.Repeat([]rune{nothing}, times), nil
	}
	from, to, ok := strings.Cut(word, "-")
	if !ok {
		to = from
	}
	a, err := strconv.ParseInt(from, 16, 32)
	if err != nil {
		return nil, err
	}
	b, err := strconv.ParseInt(to, 16, 32)
	if err != nil {
		return nil, err
	}
	var l []rune
	for u := a; u <= b; u++ {
		l = append(l, rune(u))
	}
	return l, nil
}

// model is a kind by the document's lists, apart from the program.
type model struct {
	kind    int
	scalars []rune        // of all bytes
	bytes   map[rune]byte // the least of each scalar
}

// models are those of all kinds.
func models(t *testing.T) []model {
	t.Helper()
	var all []model
	for _, c := range chapter {
		m := model{kind: c.kind, bytes: map[rune]byte{}}
		for u := rune(0); u < 0x80; u++ {
			m.scalars = append(m.scalars, u)
		}
		l, err := read(c.list)
		if err != nil || len(l) != 128 {
			t.Fatalf("kind %d: a list of %d, %v", c.kind, len(l), err)
		}
		m.scalars = append(m.scalars, l...)
		for b := 255; b >= 0; b-- {
			if u := m.scalars[b]; u != nothing {
				m.bytes[u] = byte(b)
			}
		}
		all = append(all, m)
	}
	return all
}

func (m model) checkScalar(t *testing.T, b byte) {
	t.Helper()
	want, wantOK := m.scalars[b], true
	if want == nothing {
		want, wantOK = 0, false
	}
	if u, ok := windows.Scalar(m.kind, b); u != want || ok != wantOK {
		t.Fatalf("Scalar(%d, %02X) = %04X, %v, want %04X, %v", m.kind, b, u, ok, want, wantOK)
	}
}

func (m model) checkByte(t *testing.T, u rune) {
	t.Helper()
	want, wantOK := m.bytes[u]
	if b, ok := windows.Byte(m.kind, u); b != want || ok != wantOK {
		t.Fatalf("Byte(%d, %04X) = %02X, %v, want %02X, %v", m.kind, u, b, ok, want, wantOK)
	}
}

func (m model) checkFlat(t *testing.T) {
	t.Helper()
	l := windows.Flat(m.kind)
	if len(l) != 256 {
		t.Fatalf("Flat(%d): %d scalars", m.kind, len(l))
	}
	for b, want := range m.scalars {
		if want == nothing {
			want = 0xFFFD
		}
		if l[b] != want {
			t.Fatalf("Flat(%d) at %02X: %04X, want %04X", m.kind, b, l[b], want)
		}
	}
}

// check holds a kind at all its bytes, at its scalars, at those beside them, and at its flat list.
func (m model) check(t *testing.T) {
	t.Helper()
	if !windows.Has(m.kind) {
		t.Fatalf("Has(%d) = false", m.kind)
	}
	for b := range 256 {
		m.checkScalar(t, byte(b))
	}
	for _, u := range m.scalars {
		for _, v := range []rune{u - 1, u, u + 1} {
			m.checkByte(t, v)
		}
	}
	m.checkFlat(t)
}

// noScalars are numbers that are no scalars, at both sides of what is one, and far away.
var noScalars = []rune{
	math.MinInt32, math.MinInt32 + 1, math.MinInt32 + 'A', math.MinInt32 + 0x80, math.MinInt32 + 0x2500, math.MinInt32 + 0xFFFD, -0x1000000 + 'A', -0x110000, -0x10FFFF, -0x10000, -0xFFFD,
	-0x2500, -0x20AC, -257, -256, -255, -0xA0, -0x81, -0x80, -0x7F, -'A', -2, -1,
	0xD800, 0xD801, 0xDBFF, 0xDC00, 0xDFFE, 0xDFFF,
	0x110000, 0x110001, 0x110000 + 'A', 0x110080, 0x112500, 0x11FFFD, 0x200000 + 'A', 0x1000000 + 'A', 0x1000080, 0x1002500, 0x40000000 + 'A', math.MaxInt32 - 0x7F, math.MaxInt32 - 1, math.MaxInt32,
}

// TestExample: the chapter's.
func TestExample(t *testing.T) {
	if u, ok := windows.Scalar(api.KOI8R, 0x80); u != 0x2500 || !ok {
		t.Errorf("Scalar: %04X, %v", u, ok)
	}
	if b, ok := windows.Byte(api.KOI8R, 0x2500); b != 0x80 || !ok {
		t.Errorf("Byte: %02X, %v", b, ok)
	}
	for _, kind := range []int{-1, 0, api.ISO1} {
		checkNoKind(t, kind)
	}
}

// TestRead: what the lists are held against is read as the chapter says.
func TestRead(t *testing.T) {
	for _, c := range []struct {
		list string
		want []rune
	}{
		{"00A0", []rune{0xA0}},
		{"00A0 20AC", []rune{0xA0, 0x20AC}},
		{"00A6-00A9", []rune{0xA6, 0xA7, 0xA8, 0xA9}},
		{"---- 00AD ----", []rune{nothing, 0xAD, nothing}},
		{"00A0 ----*3 00A4 ----*2", []rune{0xA0, nothing, nothing, nothing, 0xA4, nothing, nothing}},
	} {
		if l, err := read(c.list); err != nil || !slices.Equal(l, c.want) {
			t.Errorf("%s: %X, %v", c.list, l, err)
		}
	}
	for _, list := range []string{"00A0 x", "----*", "----*0", "00A0-", "-00A0"} {
		if l, err := read(list); err == nil {
			t.Errorf("%s: %X", list, l)
		}
	}
	if n := len(models(t)); n != 10 {
		t.Errorf("%d lists", n)
	}
}

// Promises 10.1 and 10.2: the kinds, byte by byte.

// TestLists: all bytes of every kind, and all its scalars.
func TestLists(t *testing.T) {
	for _, m := range models(t) {
		m.check(t)
	}
}

// TestBelow: the bytes below 80 are the same in every kind.
func TestBelow(t *testing.T) {
	for _, m := range models(t) {
		l := windows.Flat(m.kind)
		for n := range 0x80 {
			if u, ok := windows.Scalar(m.kind, byte(n)); u != rune(n) || !ok {
				t.Errorf("Scalar(%d, %02X) = %04X, %v", m.kind, n, u, ok)
			}
			if b, ok := windows.Byte(m.kind, rune(n)); b != byte(n) || !ok {
				t.Errorf("Byte(%d, %04X) = %02X, %v", m.kind, n, b, ok)
			}
			if len(l) != 256 || l[n] != rune(n) {
				t.Fatalf("Flat(%d) at %02X: %04X", m.kind, n, l)
			}
		}
	}
}

// TestControls: no byte stands for a scalar of 80 to 9F, not even that of the same number.
func TestControls(t *testing.T) {
	control := func(u rune) bool { return 0x80 <= u && u <= 0x9F }
	for _, m := range models(t) {
		for u := rune(0x80); u <= 0x9F; u++ {
			if b, ok := windows.Byte(m.kind, u); b != 0 || ok {
				t.Errorf("Byte(%d, %04X) = %02X, %v", m.kind, u, b, ok)
			}
		}
		for b := range 256 {
			if u, ok := windows.Scalar(m.kind, byte(b)); control(u) {
				t.Errorf("Scalar(%d, %02X) = %04X, %v", m.kind, b, u, ok)
			}
		}
		if slices.ContainsFunc(windows.Flat(m.kind), control) {
			t.Errorf("Flat(%d) has scalars of 80 to 9F", m.kind)
		}
	}
}

// TestEnds: 7F, 80 and FF of every kind, as one finds them in the chapter by eye.
func TestEnds(t *testing.T) {
	for kind, ends := range map[int][2]rune{
		api.KOI8R:  {0x2500, 0x042A},
		api.KOI8U:  {0x2500, 0x042A},
		api.CP1250: {0x20AC, 0x02D9},
		api.CP1251: {0x0402, 0x044F},
		api.CP1252: {0x20AC, 0x00FF},
		api.CP1253: {0x20AC, nothing},
		api.CP1254: {0x20AC, 0x00FF},
		api.CP1255: {0x20AC, nothing},
		api.CP1256: {0x20AC, 0x06D2},
		api.CP1257: {0x20AC, 0x02D9},
	} {
		checkPlace(t, kind, 0x7F, 0x7F)
		checkPlace(t, kind, 0x80, ends[0])
		checkPlace(t, kind, 0xFF, ends[1])
	}
}

// TestPlaces: some bytes at both ends of the lists' stretches, as one finds them by eye.
func TestPlaces(t *testing.T) {
	for _, c := range []struct {
		kind int
		b    byte
		u    rune
	}{
		{api.KOI8R, 0x8F, 0x2590}, {api.KOI8R, 0x92, 0x2593}, {api.KOI8R, 0x9A, 0xA0}, {api.KOI8R, 0x9F, 0xF7}, {api.KOI8R, 0xA0, 0x2550}, {api.KOI8R, 0xA3, 0x0451}, {api.KOI8R, 0xA4, 0x2553}, {api.KOI8R, 0xB2, 0x2561},
		{api.KOI8R, 0xB3, 0x0401}, {api.KOI8R, 0xB4, 0x2562}, {api.KOI8R, 0xBE, 0x256C}, {api.KOI8R, 0xBF, 0xA9}, {api.KOI8R, 0xC0, 0x044E}, {api.KOI8R, 0xD1, 0x044F}, {api.KOI8R, 0xD2, 0x0440}, {api.KOI8R, 0xF1, 0x042F},
		{api.KOI8U, 0xA3, 0x0451}, {api.KOI8U, 0xA4, 0x0454}, {api.KOI8U, 0xA5, 0x2554}, {api.KOI8U, 0xA6, 0x0456}, {api.KOI8U, 0xA7, 0x0457}, {api.KOI8U, 0xA8, 0x2557}, {api.KOI8U, 0xAC, 0x255B}, {api.KOI8U, 0xAD, 0x0491}, {api.KOI8U, 0xAE, 0x255D},
		{api.KOI8U, 0xB4, 0x0404}, {api.KOI8U, 0xB6, 0x0406}, {api.KOI8U, 0xB7, 0x0407}, {api.KOI8U, 0xB8, 0x2566}, {api.KOI8U, 0xBC, 0x256A}, {api.KOI8U, 0xBD, 0x0490}, {api.KOI8U, 0xBE, 0x256C}, {api.KOI8U, 0xF1, 0x042F},
		{api.CP1250, 0x82, 0x201A}, {api.CP1250, 0x9F, 0x017A}, {api.CP1250, 0xA0, 0xA0}, {api.CP1250, 0xA1, 0x02C7}, {api.CP1250, 0xA6, 0xA6}, {api.CP1250, 0xA9, 0xA9}, {api.CP1250, 0xAA, 0x015E}, {api.CP1250, 0xB8, 0xB8}, {api.CP1250, 0xB9, 0x0105}, {api.CP1250, 0xFE, 0x0163},
		{api.CP1251, 0x88, 0x20AC}, {api.CP1251, 0x97, 0x2014}, {api.CP1251, 0x99, 0x2122}, {api.CP1251, 0xA8, 0x0401}, {api.CP1251, 0xB8, 0x0451}, {api.CP1251, 0xB9, 0x2116}, {api.CP1251, 0xBF, 0x0457}, {api.CP1251, 0xC0, 0x0410}, {api.CP1251, 0xFE, 0x044E},
		{api.CP1252, 0x8E, 0x017D}, {api.CP1252, 0x91, 0x2018}, {api.CP1252, 0x9F, 0x0178}, {api.CP1252, 0xA0, 0xA0}, {api.CP1252, 0xFE, 0xFE},
		{api.CP1253, 0x8B, 0x2039}, {api.CP1253, 0x91, 0x2018}, {api.CP1253, 0x9B, 0x203A}, {api.CP1253, 0xA0, 0xA0}, {api.CP1253, 0xA1, 0x0385}, {api.CP1253, 0xA3, 0xA3}, {api.CP1253, 0xA9, 0xA9}, {api.CP1253, 0xAF, 0x2015}, {api.CP1253, 0xB4, 0x0384}, {api.CP1253, 0xBE, 0x038E}, {api.CP1253, 0xD1, 0x03A1}, {api.CP1253, 0xD3, 0x03A3}, {api.CP1253, 0xFE, 0x03CE},
		{api.CP1254, 0x8C, 0x0152}, {api.CP1254, 0x91, 0x2018}, {api.CP1254, 0x9F, 0x0178}, {api.CP1254, 0xCF, 0xCF}, {api.CP1254, 0xD0, 0x011E}, {api.CP1254, 0xD1, 0xD1}, {api.CP1254, 0xDD, 0x0130}, {api.CP1254, 0xDE, 0x015E}, {api.CP1254, 0xF0, 0x011F}, {api.CP1254, 0xFD, 0x0131}, {api.CP1254, 0xFE, 0x015F},
		{api.CP1255, 0x88, 0x02C6}, {api.CP1255, 0xA4, 0x20AA}, {api.CP1255, 0xAA, 0xD7}, {api.CP1255, 0xBA, 0xF7}, {api.CP1255, 0xC0, 0x05B0}, {api.CP1255, 0xC9, 0x05B9}, {api.CP1255, 0xCB, 0x05BB}, {api.CP1255, 0xD3, 0x05C3}, {api.CP1255, 0xD4, 0x05F0}, {api.CP1255, 0xD8, 0x05F4}, {api.CP1255, 0xE0, 0x05D0}, {api.CP1255, 0xFA, 0x05EA}, {api.CP1255, 0xFD, 0x200E}, {api.CP1255, 0xFE, 0x200F},
		{api.CP1256, 0x81, 0x067E}, {api.CP1256, 0x9D, 0x200C}, {api.CP1256, 0x9E, 0x200D}, {api.CP1256, 0x9F, 0x06BA}, {api.CP1256, 0xA1, 0x060C}, {api.CP1256, 0xAA, 0x06BE}, {api.CP1256, 0xC0, 0x06C1}, {api.CP1256, 0xC1, 0x0621}, {api.CP1256, 0xD6, 0x0636}, {api.CP1256, 0xD7, 0xD7}, {api.CP1256, 0xD8, 0x0637}, {api.CP1256, 0xDB, 0x063A}, {api.CP1256, 0xDC, 0x0640},
		{api.CP1256, 0xE1, 0x0644}, {api.CP1256, 0xE6, 0x0648}, {api.CP1256, 0xE7, 0xE7}, {api.CP1256, 0xEB, 0xEB}, {api.CP1256, 0xEC, 0x0649}, {api.CP1256, 0xF0, 0x064B}, {api.CP1256, 0xF3, 0x064E}, {api.CP1256, 0xF6, 0x0650}, {api.CP1256, 0xFA, 0x0652}, {api.CP1256, 0xFD, 0x200E}, {api.CP1256, 0xFE, 0x200F},
		{api.CP1257, 0x8D, 0xA8}, {api.CP1257, 0x8E, 0x02C7}, {api.CP1257, 0x8F, 0xB8}, {api.CP1257, 0x9D, 0xAF}, {api.CP1257, 0x9E, 0x02DB}, {api.CP1257, 0xA0, 0xA0}, {api.CP1257, 0xA2, 0xA2}, {api.CP1257, 0xA8, 0xD8}, {api.CP1257, 0xAF, 0xC6}, {api.CP1257, 0xB8, 0xF8}, {api.CP1257, 0xBF, 0xE6}, {api.CP1257, 0xC0, 0x0104}, {api.CP1257, 0xFE, 0x017E},
	} {
		checkPlace(t, c.kind, c.b, c.u)
	}
}

// checkPlace holds all calls at one byte, and at its scalar if it has one.
func checkPlace(t *testing.T, kind int, b byte, want rune) {
	t.Helper()
	l := windows.Flat(kind)
	if len(l) != 256 {
		t.Fatalf("Flat(%d): %d scalars", kind, len(l))
	}
	u, ok := windows.Scalar(kind, b)
	if want == nothing {
		if u != 0 || ok || l[b] != 0xFFFD {
			t.Errorf("kind %d, byte %02X: %04X, %v, flat %04X, want nothing", kind, b, u, ok, l[b])
		}
		return
	}
	if u != want || !ok || l[b] != want {
		t.Errorf("kind %d, byte %02X: %04X, %v, flat %04X, want %04X", kind, b, u, ok, l[b], want)
	}
	if back, ok := windows.Byte(kind, want); back != b || !ok {
		t.Errorf("Byte(%d, %04X) = %02X, %v, want %02X", kind, want, back, ok, b)
	}
}

// TestNothing: exactly these bytes stand for nothing, alone, in a row and at the lists' ends.
func TestNothing(t *testing.T) {
	rows := map[int][][2]int{
		api.CP1250: {{0x81, 0x81}, {0x83, 0x83}, {0x88, 0x88}, {0x90, 0x90}, {0x98, 0x98}},
		api.CP1251: {{0x98, 0x98}},
		api.CP1252: {{0x81, 0x81}, {0x8D, 0x8D}, {0x8F, 0x90}, {0x9D, 0x9D}},
		api.CP1253: {{0x81, 0x81}, {0x88, 0x88}, {0x8A, 0x8A}, {0x8C, 0x90}, {0x98, 0x98}, {0x9A, 0x9A}, {0x9C, 0x9F}, {0xAA, 0xAA}, {0xD2, 0xD2}, {0xFF, 0xFF}},
		api.CP1254: {{0x81, 0x81}, {0x8D, 0x90}, {0x9D, 0x9E}},
		api.CP1255: {{0x81, 0x81}, {0x8A, 0x8A}, {0x8C, 0x90}, {0x9A, 0x9A}, {0x9C, 0x9F}, {0xCA, 0xCA}, {0xD9, 0xDF}, {0xFB, 0xFC}, {0xFF, 0xFF}},
		api.CP1257: {{0x81, 0x81}, {0x83, 0x83}, {0x88, 0x88}, {0x8A, 0x8A}, {0x8C, 0x8C}, {0x90, 0x90}, {0x98, 0x98}, {0x9A, 0x9A}, {0x9C, 0x9C}, {0x9F, 0x9F}, {0xA1, 0xA1}, {0xA5, 0xA5}},
	}
	for _, c := range chapter {
		l := windows.Flat(c.kind)
		if len(l) != 256 {
			t.Fatalf("Flat(%d): %d scalars", c.kind, len(l))
		}
		for b := range 256 {
			empty := slices.ContainsFunc(rows[c.kind], func(r [2]int) bool { return r[0] <= b && b <= r[1] })
			u, ok := windows.Scalar(c.kind, byte(b))
			if ok == empty || empty && u != 0 || (l[b] == 0xFFFD) != empty {
				t.Errorf("kind %d, byte %02X: %04X, %v, flat %04X", c.kind, b, u, ok, l[b])
			}
		}
	}
}

// Promise 10.1: the bytes of scalars.

// TestEveryNumber: Byte of every scalar in every kind, and of the numbers around them.
func TestEveryNumber(t *testing.T) {
	for _, m := range models(t) {
		for u := rune(-0x11000); u < 0x121000; u++ {
			m.checkByte(t, u)
		}
	}
}

// TestNoScalars: what is no scalar has no byte, not even where it is alike in its lowest bits.
func TestNoScalars(t *testing.T) {
	for _, m := range models(t) {
		for _, u := range noScalars {
			if b, ok := windows.Byte(m.kind, u); b != 0 || ok {
				t.Errorf("Byte(%d, %X) = %02X, %v", m.kind, u, b, ok)
			}
		}
		for _, u := range m.scalars {
			for _, v := range []rune{-u, ^u, u - 0x100, u + 0x100, u - 0x10000, u + 0x10000, u + 0x110000, u + 0x1000000, u + 0x40000000, math.MinInt32 + (u & 0xFFFF)} {
				m.checkByte(t, v)
			}
		}
	}
}

// TestMissing: FFFD is what Flat says of a byte that stands for nothing; no byte stands for it.
func TestMissing(t *testing.T) {
	for _, m := range models(t) {
		for _, u := range []rune{0xFFFD, 0xFFFC, 0xFFFE, 0xFFFF, 0x1FFFD, 0x10FFFD} {
			if b, ok := windows.Byte(m.kind, u); b != 0 || ok {
				t.Errorf("Byte(%d, %X) = %02X, %v", m.kind, u, b, ok)
			}
		}
	}
}

// TestNoPlace: scalars just beside stretches and single ones, which no byte of the kind stands for.
func TestNoPlace(t *testing.T) {
	for kind, l := range map[int][]rune{
		api.KOI8R:  {0xA1, 0xA8, 0xAA, 0xB1, 0xB3, 0xB6, 0xB8, 0xF6, 0xF8, 0x0400, 0x0402, 0x040F, 0x0450, 0x0452, 0x0490, 0x0491, 0x2218, 0x221B, 0x2263, 0x2266, 0x231F, 0x2322, 0x24FF, 0x2501, 0x254F, 0x256D, 0x258F, 0x2594, 0x259F, 0x25A1},
		api.KOI8U:  {0xA1, 0x0403, 0x0405, 0x0408, 0x040F, 0x0450, 0x0453, 0x0455, 0x0458, 0x048F, 0x0492, 0x254F, 0x2553, 0x2555, 0x2556, 0x255C, 0x2562, 0x2564, 0x2565, 0x256B, 0x256D, 0x258F, 0x2594},
		api.CP1250: {0xA1, 0xA2, 0xA3, 0xA5, 0xAA, 0xAF, 0xB2, 0xB3, 0xB9, 0xBA, 0xBC, 0xBD, 0xBE, 0xBF, 0xC0, 0xC3, 0xC5, 0xD0, 0xF0, 0xFF, 0x0100, 0x0192, 0x02C6, 0x02DA, 0x02DC, 0x20AB, 0x20AD},
		api.CP1251: {0xA1, 0xA2, 0xA3, 0xA5, 0xA8, 0xAA, 0xAF, 0xB2, 0xB3, 0xB4, 0xB8, 0xBA, 0xBC, 0xC0, 0xFF, 0x0400, 0x040D, 0x0450, 0x045D, 0x0460, 0x048F, 0x0492, 0x2012, 0x2015, 0x2017, 0x201B, 0x201F, 0x2031, 0x2038, 0x203B, 0x2115, 0x2117, 0x2121, 0x2123},
		api.CP1252: {0x0100, 0x0151, 0x0154, 0x015F, 0x0162, 0x0177, 0x0179, 0x017C, 0x017F, 0x0191, 0x0193, 0x02C5, 0x02C7, 0x02DB, 0x02DD, 0x20AB, 0x20AD},
		api.CP1253: {0xA1, 0xA2, 0xAA, 0xAF, 0xB4, 0xB8, 0xBA, 0xBC, 0xBE, 0xFF, 0x0152, 0x0160, 0x02C6, 0x0383, 0x0387, 0x038B, 0x038D, 0x03A2, 0x03CF, 0x2012, 0x2016},
		api.CP1254: {0xD0, 0xDD, 0xDE, 0xF0, 0xFD, 0xFE, 0x0100, 0x011D, 0x0120, 0x012F, 0x0132, 0x015D, 0x0162, 0x017D, 0x017E},
		api.CP1255: {0xA4, 0xAA, 0xBA, 0xC0, 0xD6, 0xD8, 0xF6, 0xF8, 0xFF, 0x05AF, 0x05BA, 0x05C4, 0x05CF, 0x05EB, 0x05EF, 0x05F5, 0x200D, 0x2010, 0x20A9, 0x20AB, 0x20AD},
		api.CP1256: {0xA1, 0xAA, 0xBA, 0xBF, 0xC0, 0xD6, 0xD8, 0xDF, 0xE1, 0xE3, 0xE6, 0xEC, 0xED, 0xF0, 0xF3, 0xF5, 0xF6, 0xF8, 0xFA, 0xFD, 0xFF, 0x060B, 0x060D, 0x061A, 0x061C, 0x061E, 0x0620, 0x063B, 0x063F, 0x0653, 0x067D, 0x067F, 0x0687, 0x200B, 0x2010},
		api.CP1257: {0xA1, 0xA5, 0xAA, 0xBA, 0xBF, 0xC0, 0xC3, 0xC7, 0xC8, 0xD4, 0xD9, 0xE0, 0xE3, 0xF4, 0xF9, 0x0192, 0x02C6, 0x02C8, 0x02DA, 0x02DC},
	} {
		for _, u := range l {
			if b, ok := windows.Byte(kind, u); b != 0 || ok {
				t.Errorf("Byte(%d, %04X) = %02X, %v", kind, u, b, ok)
			}
		}
	}
}

// TestDoubles: no list of the chapter says a scalar twice, so every byte is the least one of its scalar.
func TestDoubles(t *testing.T) {
	for _, m := range models(t) {
		for b, u := range m.scalars {
			if u == nothing {
				continue
			}
			if got, ok := windows.Byte(m.kind, u); int(got) != b || !ok {
				t.Errorf("Byte(%d, %04X) = %02X, %v, want %02X", m.kind, u, got, ok, b)
			}
		}
	}
}

// Promises 10.1 and 10.2: kinds that are none of these.

func isKind(kind int) bool { return kind == 40 || kind == 41 || 50 <= kind && kind <= 57 }

// checkNoKind holds all calls at a kind that is none of these.
func checkNoKind(t *testing.T, kind int) {
	t.Helper()
	if windows.Has(kind) {
		t.Errorf("Has(%d) = true", kind)
	}
	if l := windows.Flat(kind); len(l) != 0 {
		t.Errorf("Flat(%d): %d scalars", kind, len(l))
	}
	for b := range 256 {
		if u, ok := windows.Scalar(kind, byte(b)); u != 0 || ok {
			t.Errorf("Scalar(%d, %02X) = %04X, %v", kind, b, u, ok)
		}
	}
	check := func(u rune) {
		if b, ok := windows.Byte(kind, u); b != 0 || ok {
			t.Errorf("Byte(%d, %X) = %02X, %v", kind, u, b, ok)
		}
	}
	for u := range rune(0x700) {
		check(u)
	}
	for _, u := range []rune{0x200C, 0x2013, 0x2015, 0x20AA, 0x20AC, 0x2116, 0x2122, 0x2219, 0x2320, 0x2500, 0x2550, 0x256C, 0x25A0, 0xFFFC, 0xFFFD, 0xFFFE, 0x1F600, 0x10FFFF} {
		check(u)
	}
	for _, u := range noScalars {
		check(u)
	}
}

// TestKinds: which numbers are kinds, and what is told of those that are none.
func TestKinds(t *testing.T) {
	has := map[int]bool{}
	for _, c := range chapter {
		has[c.kind] = true
	}
	for kind := -2000; kind <= 2000; kind++ {
		if isKind(kind) != has[kind] || isKind(kind) != windows.Has(kind) {
			t.Errorf("Has(%d) = %v", kind, windows.Has(kind))
		}
		if !isKind(kind) {
			checkNoKind(t, kind)
		}
	}
	for _, kind := range []int{math.MinInt, math.MinInt + 40, math.MinInt32, -1 << 32, -65536, math.MaxInt32, 1 << 31, 1 << 32, math.MaxInt - 40, math.MaxInt} {
		checkNoKind(t, kind)
	}
	for kind := 40; kind <= 57; kind++ {
		for _, far := range []int{1 << 8, 1 << 16, 1 << 31, 1 << 32, 1 << 40, math.MinInt} {
			checkNoKind(t, kind+far)
			checkNoKind(t, -kind-far)
		}
		checkNoKind(t, -kind)
		checkNoKind(t, ^kind)
	}
}

// TestOtherLayers: the kinds of the other layers, and the numbers beside those of this one.
func TestOtherLayers(t *testing.T) {
	for _, kind := range []int{
		api.ASCII, api.UTF8, api.UTF16BE, api.UTF16LE, api.UTF16, api.UTF32BE, api.UTF32LE, api.UTF32, api.UCS2BE, api.UCS2LE, api.UTF7,
		api.ISO1, api.ISO2, api.ISO3, api.ISO4, api.ISO5, api.ISO6, api.ISO7, api.ISO8, api.ISO9, api.ISO10, api.ISO11, api.ISO13, api.ISO14, api.ISO15, api.ISO16,
		api.CP1258, api.CP437, api.CP850, api.CP852, api.CP855, api.CP866, api.MacRoman, api.MacCyr, api.CP037, api.CP500, api.CP1026,
		api.JIS0201, api.EUCJP, api.ShiftJIS, api.ISO2022JP, api.EUCCN, api.HZ, api.EUCKR, api.JOHAB, api.ISO2022KR, api.MostKind + 1,
		api.KOI8R - 1, api.KOI8U + 1, api.CP1250 - 1, api.CP1257 + 1, 0, -1,
	} {
		checkNoKind(t, kind)
	}
}

// Promise 10.2 and R4: what Flat answers is its caller's.
func TestFlatIsNew(t *testing.T) {
	all := models(t)
	for _, m := range all {
		l, other := windows.Flat(m.kind), windows.Flat(m.kind)
		before := slices.Clone(other)
		l = l[:cap(l)]
		for i := range l {
			l[i] = 'x'
		}
		if !slices.Equal(other, before) {
			t.Fatalf("kind %d: two lists share memory", m.kind)
		}
		for _, each := range all {
			each.check(t)
		}
	}
}

// Promise 10.3.

// TestThereAndBack: Scalar of Byte, and Byte of Scalar, by the program's own answers.
func TestThereAndBack(t *testing.T) {
	for _, c := range chapter {
		bytes, scalars := 0, 0
		for n := range 256 {
			u, ok := windows.Scalar(c.kind, byte(n))
			if !ok {
				continue
			}
			bytes++
			b, ok := windows.Byte(c.kind, u)
			if again, still := windows.Scalar(c.kind, b); !ok || int(b) > n || again != u || !still {
				t.Errorf("kind %d: %02X is %04X, which is %02X, %v, which is %04X, %v", c.kind, n, u, b, ok, again, still)
			}
		}
		for u := rune(0); u <= 0x10FFFF; u++ {
			b, ok := windows.Byte(c.kind, u)
			if !ok {
				continue
			}
			scalars++
			if back, ok := windows.Scalar(c.kind, b); back != u || !ok {
				t.Errorf("kind %d: %04X is %02X, which is %04X, %v", c.kind, u, b, back, ok)
			}
		}
		if bytes != scalars || bytes < 233 {
			t.Errorf("kind %d: %d bytes and %d scalars", c.kind, bytes, scalars)
		}
	}
}
