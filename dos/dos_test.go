package dos_test

import (
	"fmt"
	"math"
	"slices"
	"strconv"
	"strings"
	"testing"

	"dragoman/api"
	"dragoman/dos"
)

// chapter is the document's lists, letter by letter.
var chapter = []struct {
	kind int
	list string
}{
	{api.CP437, "00C7 00FC 00E9 00E2 00E4 00E0 00E5 00E7 00EA 00EB 00E8 00EF 00EE 00EC 00C4 00C5 00C9 00E6 00C6 00F4 00F6 00F2 00FB 00F9 00FF 00D6 00DC 00A2 00A3 00A5 20A7 0192 00E1 00ED 00F3 00FA 00F1 00D1 00AA 00BA 00BF 2310 00AC 00BD 00BC 00A1 00AB 00BB 2591-2593 2502 2524 2561 2562 2556 2555 2563 2551 2557 255D 255C 255B 2510 2514 2534 252C 251C 2500 253C 255E 255F 255A 2554 2569 2566 2560 2550 256C 2567 2568 2564 2565 2559 2558 2552 2553 256B 256A 2518 250C 2588 2584 258C 2590 2580 03B1 00DF 0393 03C0 03A3 03C3 00B5 03C4 03A6 0398 03A9 03B4 221E 03C6 03B5 2229 2261 00B1 2265 2264 2320 2321 00F7 2248 00B0 2219 00B7 221A 207F 00B2 25A0 00A0"},
	{api.CP850, "00C7 00FC 00E9 00E2 00E4 00E0 00E5 00E7 00EA 00EB 00E8 00EF 00EE 00EC 00C4 00C5 00C9 00E6 00C6 00F4 00F6 00F2 00FB 00F9 00FF 00D6 00DC 00F8 00A3 00D8 00D7 0192 00E1 00ED 00F3 00FA 00F1 00D1 00AA 00BA 00BF 00AE 00AC 00BD 00BC 00A1 00AB 00BB 2591-2593 2502 2524 00C1 00C2 00C0 00A9 2563 2551 2557 255D 00A2 00A5 2510 2514 2534 252C 251C 2500 253C 00E3 00C3 255A 2554 2569 2566 2560 2550 256C 00A4 00F0 00D0 00CA 00CB 00C8 0131 00CD-00CF 2518 250C 2588 2584 00A6 00CC 2580 00D3 00DF 00D4 00D2 00F5 00D5 00B5 00FE 00DE 00DA 00DB 00D9 00FD 00DD 00AF 00B4 00AD 00B1 2017 00BE 00B6 00A7 00F7 00B8 00B0 00A8 00B7 00B9 00B3 00B2 25A0 00A0"},
	{api.CP852, "00C7 00FC 00E9 00E2 00E4 016F 0107 00E7 0142 00EB 0150 0151 00EE 0179 00C4 0106 00C9 0139 013A 00F4 00F6 013D 013E 015A 015B 00D6 00DC 0164 0165 0141 00D7 010D 00E1 00ED 00F3 00FA 0104 0105 017D 017E 0118 0119 00AC 017A 010C 015F 00AB 00BB 2591-2593 2502 2524 00C1 00C2 011A 015E 2563 2551 2557 255D 017B 017C 2510 2514 2534 252C 251C 2500 253C 0102 0103 255A 2554 2569 2566 2560 2550 256C 00A4 0111 0110 010E 00CB 010F 0147 00CD 00CE 011B 2518 250C 2588 2584 0162 016E 2580 00D3 00DF 00D4 0143 0144 0148 0160 0161 0154 00DA 0155 0170 00FD 00DD 0163 00B4 00AD 02DD 02DB 02C7 02D8 00A7 00F7 00B8 00B0 00A8 02D9 0171 0158 0159 25A0 00A0"},
	{api.CP855, "0452 0402 0453 0403 0451 0401 0454 0404 0455 0405 0456 0406 0457 0407 0458 0408 0459 0409 045A 040A 045B 040B 045C 040C 045E 040E 045F 040F 044E 042E 044A 042A 0430 0410 0431 0411 0446 0426 0434 0414 0435 0415 0444 0424 0433 0413 00AB 00BB 2591-2593 2502 2524 0445 0425 0438 0418 2563 2551 2557 255D 0439 0419 2510 2514 2534 252C 251C 2500 253C 043A 041A 255A 2554 2569 2566 2560 2550 256C 00A4 043B 041B 043C 041C 043D 041D 043E 041E 043F 2518 250C 2588 2584 041F 044F 2580 042F 0440 0420 0441 0421 0442 0422 0443 0423 0436 0416 0432 0412 044C 042C 2116 00AD 044B 042B 0437 0417 0448 0428 044D 042D 0449 0429 0447 0427 00A7 25A0 00A0"},
	{api.CP866, "0410-043F 2591-2593 2502 2524 2561 2562 2556 2555 2563 2551 2557 255D 255C 255B 2510 2514 2534 252C 251C 2500 253C 255E 255F 255A 2554 2569 2566 2560 2550 256C 2567 2568 2564 2565 2559 2558 2552 2553 256B 256A 2518 250C 2588 2584 258C 2590 2580 0440-044F 0401 0451 0404 0454 0407 0457 040E 045E 00B0 2219 00B7 221A 2116 00A4 25A0 00A0"},
	{api.MacRoman, "00C4 00C5 00C7 00C9 00D1 00D6 00DC 00E1 00E0 00E2 00E4 00E3 00E5 00E7 00E9 00E8 00EA 00EB 00ED 00EC 00EE 00EF 00F1 00F3 00F2 00F4 00F6 00F5 00FA 00F9 00FB 00FC 2020 00B0 00A2 00A3 00A7 2022 00B6 00DF 00AE 00A9 2122 00B4 00A8 2260 00C6 00D8 221E 00B1 2264 2265 00A5 00B5 2202 2211 220F 03C0 222B 00AA 00BA 03A9 00E6 00F8 00BF 00A1 00AC 221A 0192 2248 2206 00AB 00BB 2026 00A0 00C0 00C3 00D5 0152 0153 2013 2014 201C 201D 2018 2019 00F7 25CA 00FF 0178 2044 20AC 2039 203A FB01 FB02 2021 00B7 201A 201E 2030 00C2 00CA 00C1 00CB 00C8 00CD-00CF 00CC 00D3 00D4 F8FF 00D2 00DA 00DB 00D9 0131 02C6 02DC 00AF 02D8-02DA 00B8 02DD 02DB 02C7"},
	{api.MacCyr, "0410-042F 2020 00B0 0490 00A3 00A7 2022 00B6 0406 00AE 00A9 2122 0402 0452 2260 0403 0453 221E 00B1 2264 2265 0456 00B5 0491 0408 0404 0454 0407 0457 0409 0459 040A 045A 0458 0405 00AC 221A 0192 2248 2206 00AB 00BB 2026 00A0 040B 045B 040C 045C 0455 2013 2014 201C 201D 2018 2019 00F7 201E 040E 045E 040F 045F 2116 0401 0451 044F 0430-044E 20AC"},
}

const nothing = -1 // what read and model say of a byte that stands for nothing

// read is the scalars that a list of the document says, one by one.
func read(list string) ([]rune, error) {
	var l []rune
	for _, word := range strings.Fields(list) {
		more, err := readWord(word)
		if err != nil {
			return nil, fmt.Errorf("%s: %w", word, err)
		}
		l = append(l, more...)
	}
	return l, nil
}

func readWord(word string) ([]rune, error) {
	if word == "----" {
		return []rune{nothing}, nil
	}
	if n, ok := strings.CutPrefix(word, "----*"); ok {
		times, err := strconv.Atoi(n)
		if err != nil || times < 1 {
			return nil, fmt.Errorf("%d times: %v", times, err)
		}
		return slices.Repeat([]rune{nothing}, times), nil
	}
	from, to, ok := strings.Cut(word, "-")
	if !ok {
		to = from
	}
	a, err := strconv.ParseInt(from, 16, 32)
	if err != nil {
		return nil, err
	}
	b, err := strconv.ParseInt(to, 16, 32)
	if err != nil {
		return nil, err
	}
	var l []rune
	for u := a; u <= b; u++ {
		l = append(l, rune(u))
	}
	return l, nil
}

// model is a kind by the document's lists, apart from the program.
type model struct {
	kind    int
	scalars []rune        // of all bytes
	bytes   map[rune]byte // the least of each scalar
}

// models are those of all kinds.
func models(t *testing.T) []model {
	t.Helper()
	var all []model
	for _, c := range chapter {
		m := model{kind: c.kind, bytes: map[rune]byte{}}
		for u := rune(0); u < 0x80; u++ {
			m.scalars = append(m.scalars, u)
		}
		l, err := read(c.list)
		if err != nil || len(l) != 128 {
			t.Fatalf("kind %d: a list of %d, %v", c.kind, len(l), err)
		}
		m.scalars = append(m.scalars, l...)
		for b := 255; b >= 0; b-- {
			if u := m.scalars[b]; u != nothing {
				m.bytes[u] = byte(b)
			}
		}
		all = append(all, m)
	}
	return all
}

func (m model) checkScalar(t *testing.T, b byte) {
	t.Helper()
	want, wantOK := m.scalars[b], true
	if want == nothing {
		want, wantOK = 0, false
	}
	if u, ok := dos.Scalar(m.kind, b); u != want || ok != wantOK {
		t.Fatalf("Scalar(%d, %02X) = %04X, %v, want %04X, %v", m.kind, b, u, ok, want, wantOK)
	}
}

func (m model) checkByte(t *testing.T, u rune) {
	t.Helper()
	want, wantOK := m.bytes[u]
	if b, ok := dos.Byte(m.kind, u); b != want || ok != wantOK {
		t.Fatalf("Byte(%d, %04X) = %02X, %v, want %02X, %v", m.kind, u, b, ok, want, wantOK)
	}
}

func (m model) checkFlat(t *testing.T) {
	t.Helper()
	l := dos.Flat(m.kind)
	if len(l) != 256 {
		t.Fatalf("Flat(%d): %d scalars", m.kind, len(l))
	}
	for b, want := range m.scalars {
		if want == nothing {
			want = 0xFFFD
		}
		if l[b] != want {
			t.Fatalf("Flat(%d) at %02X: %04X, want %04X", m.kind, b, l[b], want)
		}
	}
}

// check holds a kind at all its bytes, at its scalars, at those beside them, and at its flat list.
func (m model) check(t *testing.T) {
	t.Helper()
	if !dos.Has(m.kind) {
		t.Fatalf("Has(%d) = false", m.kind)
	}
	for b := range 256 {
		m.checkScalar(t, byte(b))
	}
	for _, u := range m.scalars {
		for _, v := range []rune{u - 1, u, u + 1} {
			m.checkByte(t, v)
		}
	}
	m.checkFlat(t)
}

// noScalars are numbers that are no scalars, at both sides of what is one, and far away.
var noScalars = []rune{
	math.MinInt32, math.MinInt32 + 1, math.MinInt32 + 'A', math.MinInt32 + 0x80, math.MinInt32 + 0x2500, math.MinInt32 + 0xFFFD, -0x1000000 + 'A', -0x110000, -0x10FFFF, -0x10000, -0xFFFD,
	-0x2500, -0x20AC, -257, -256, -255, -0xA0, -0x81, -0x80, -0x7F, -'A', -2, -1,
	0xD800, 0xD801, 0xDBFF, 0xDC00, 0xDFFE, 0xDFFF,
	0x110000, 0x110001, 0x110000 + 'A', 0x110080, 0x112500, 0x11FFFD, 0x200000 + 'A', 0x1000000 + 'A', 0x1000080, 0x1002500, 0x40000000 + 'A', math.MaxInt32 - 0x7F, math.MaxInt32 - 1, math.MaxInt32,
}

// TestExample: the chapter's.
func TestExample(t *testing.T) {
	if u, ok := dos.Scalar(api.CP437, 0x9E); u != 0x20A7 || !ok {
		t.Errorf("Scalar: %04X, %v", u, ok)
	}
	if b, ok := dos.Byte(api.CP437, 0x20A7); b != 0x9E || !ok {
		t.Errorf("Byte: %02X, %v", b, ok)
	}
	for _, kind := range []int{-1, 0, api.ISO1} {
		checkNoKind(t, kind)
	}
}

// TestRead: what the lists are held against is read as the chapter says.
func TestRead(t *testing.T) {
	for _, c := range []struct {
		list string
		want []rune
	}{
		{"00A0", []rune{0xA0}},
		{"00A0 20AC", []rune{0xA0, 0x20AC}},
		{"00A6-00A9", []rune{0xA6, 0xA7, 0xA8, 0xA9}},
		{"---- 00AD ----", []rune{nothing, 0xAD, nothing}},
		{"00A0 ----*3 00A4 ----*2", []rune{0xA0, nothing, nothing, nothing, 0xA4, nothing, nothing}},
	} {
		if l, err := read(c.list); err != nil || !slices.Equal(l, c.want) {
			t.Errorf("%s: %X, %v", c.list, l, err)
		}
	}
	for _, list := range []string{"00A0 x", "----*", "----*0", "00A0-", "-00A0"} {
		if l, err := read(list); err == nil {
			t.Errorf("%s: %X", list, l)
		}
	}
	if n := len(models(t)); n != 7 {
		t.Errorf("%d lists", n)
	}
}

// Promises 11.1 and 11.2: the kinds, byte by byte.

// TestLists: all bytes of every kind, and all its scalars.
func TestLists(t *testing.T) {
	for _, m := range models(t) {
		m.check(t)
	}
}

// TestBelow: the bytes below 80 are the same in every kind.
func TestBelow(t *testing.T) {
	for _, m := range models(t) {
		l := dos.Flat(m.kind)
		for n := range 0x80 {
			if u, ok := dos.Scalar(m.kind, byte(n)); u != rune(n) || !ok {
				t.Errorf("Scalar(%d, %02X) = %04X, %v", m.kind, n, u, ok)
			}
			if b, ok := dos.Byte(m.kind, rune(n)); b != byte(n) || !ok {
				t.Errorf("Byte(%d, %04X) = %02X, %v", m.kind, n, b, ok)
			}
			if len(l) != 256 || l[n] != rune(n) {
				t.Fatalf("Flat(%d) at %02X: %04X", m.kind, n, l)
			}
		}
	}
}

// TestControls: no byte stands for a scalar of 80 to 9F, not even that of the same number.
func TestControls(t *testing.T) {
	control := func(u rune) bool { return 0x80 <= u && u <= 0x9F }
	for _, m := range models(t) {
		for u := rune(0x80); u <= 0x9F; u++ {
			if b, ok := dos.Byte(m.kind, u); b != 0 || ok {
				t.Errorf("Byte(%d, %04X) = %02X, %v", m.kind, u, b, ok)
			}
		}
		for b := range 256 {
			if u, ok := dos.Scalar(m.kind, byte(b)); control(u) {
				t.Errorf("Scalar(%d, %02X) = %04X, %v", m.kind, b, u, ok)
			}
		}
		if slices.ContainsFunc(dos.Flat(m.kind), control) {
			t.Errorf("Flat(%d) has scalars of 80 to 9F", m.kind)
		}
	}
}

// TestEnds: 7F, 80 and FF of every kind, as one finds them in the chapter by eye.
func TestEnds(t *testing.T) {
	for kind, ends := range map[int][2]rune{
		api.CP437:    {0x00C7, 0x00A0},
		api.CP850:    {0x00C7, 0x00A0},
		api.CP852:    {0x00C7, 0x00A0},
		api.CP855:    {0x0452, 0x00A0},
		api.CP866:    {0x0410, 0x00A0},
		api.MacRoman: {0x00C4, 0x02C7},
		api.MacCyr:   {0x0410, 0x20AC},
	} {
		checkPlace(t, kind, 0x7F, 0x7F)
		checkPlace(t, kind, 0x80, ends[0])
		checkPlace(t, kind, 0xFF, ends[1])
	}
}

// TestPlaces: some bytes, those at both ends of the lists' stretches among them, as one finds them by eye.
func TestPlaces(t *testing.T) {
	for _, c := range []struct {
		kind int
		b    byte
		u    rune
	}{
		{api.CP437, 0x9B, 0xA2}, {api.CP437, 0x9E, 0x20A7}, {api.CP437, 0x9F, 0x0192}, {api.CP437, 0xA0, 0xE1}, {api.CP437, 0xA9, 0x2310}, {api.CP437, 0xAF, 0xBB}, {api.CP437, 0xB0, 0x2591}, {api.CP437, 0xB1, 0x2592}, {api.CP437, 0xB2, 0x2593}, {api.CP437, 0xB3, 0x2502}, {api.CP437, 0xB4, 0x2524}, {api.CP437, 0xB5, 0x2561}, {api.CP437, 0xBF, 0x2510}, {api.CP437, 0xC0, 0x2514},
		{api.CP437, 0xC4, 0x2500}, {api.CP437, 0xC5, 0x253C}, {api.CP437, 0xCD, 0x2550}, {api.CP437, 0xCE, 0x256C}, {api.CP437, 0xD9, 0x2518}, {api.CP437, 0xDA, 0x250C}, {api.CP437, 0xDB, 0x2588}, {api.CP437, 0xDF, 0x2580}, {api.CP437, 0xE0, 0x03B1}, {api.CP437, 0xE1, 0xDF}, {api.CP437, 0xE6, 0xB5}, {api.CP437, 0xEA, 0x03A9}, {api.CP437, 0xEC, 0x221E},
		{api.CP437, 0xF0, 0x2261}, {api.CP437, 0xF1, 0xB1}, {api.CP437, 0xF4, 0x2320}, {api.CP437, 0xF5, 0x2321}, {api.CP437, 0xF8, 0xB0}, {api.CP437, 0xF9, 0x2219}, {api.CP437, 0xFA, 0xB7}, {api.CP437, 0xFB, 0x221A}, {api.CP437, 0xFC, 0x207F}, {api.CP437, 0xFD, 0xB2}, {api.CP437, 0xFE, 0x25A0},
		{api.CP850, 0x9B, 0xF8}, {api.CP850, 0x9D, 0xD8}, {api.CP850, 0x9E, 0xD7}, {api.CP850, 0x9F, 0x0192}, {api.CP850, 0xA9, 0xAE}, {api.CP850, 0xB0, 0x2591}, {api.CP850, 0xB2, 0x2593}, {api.CP850, 0xB3, 0x2502}, {api.CP850, 0xB5, 0xC1}, {api.CP850, 0xB8, 0xA9}, {api.CP850, 0xBD, 0xA2}, {api.CP850, 0xBE, 0xA5}, {api.CP850, 0xC6, 0xE3}, {api.CP850, 0xC7, 0xC3},
		{api.CP850, 0xCF, 0xA4}, {api.CP850, 0xD0, 0xF0}, {api.CP850, 0xD1, 0xD0}, {api.CP850, 0xD5, 0x0131}, {api.CP850, 0xD6, 0xCD}, {api.CP850, 0xD7, 0xCE}, {api.CP850, 0xD8, 0xCF}, {api.CP850, 0xD9, 0x2518}, {api.CP850, 0xDD, 0xA6}, {api.CP850, 0xDE, 0xCC}, {api.CP850, 0xE6, 0xB5}, {api.CP850, 0xEF, 0xB4}, {api.CP850, 0xF0, 0xAD}, {api.CP850, 0xF2, 0x2017}, {api.CP850, 0xFE, 0x25A0},
		{api.CP852, 0x85, 0x016F}, {api.CP852, 0x86, 0x0107}, {api.CP852, 0x8A, 0x0150}, {api.CP852, 0x9F, 0x010D}, {api.CP852, 0xA4, 0x0104}, {api.CP852, 0xAF, 0xBB}, {api.CP852, 0xB0, 0x2591}, {api.CP852, 0xB2, 0x2593}, {api.CP852, 0xB3, 0x2502}, {api.CP852, 0xB7, 0x011A}, {api.CP852, 0xBD, 0x017B}, {api.CP852, 0xC6, 0x0102}, {api.CP852, 0xCF, 0xA4}, {api.CP852, 0xD0, 0x0111},
		{api.CP852, 0xD1, 0x0110}, {api.CP852, 0xD5, 0x0147}, {api.CP852, 0xD8, 0x011B}, {api.CP852, 0xDD, 0x0162}, {api.CP852, 0xDE, 0x016E}, {api.CP852, 0xE3, 0x0143}, {api.CP852, 0xEF, 0xB4}, {api.CP852, 0xF0, 0xAD}, {api.CP852, 0xF1, 0x02DD}, {api.CP852, 0xF4, 0x02D8}, {api.CP852, 0xFA, 0x02D9}, {api.CP852, 0xFB, 0x0171}, {api.CP852, 0xFE, 0x25A0},
		{api.CP855, 0x81, 0x0402}, {api.CP855, 0x9F, 0x042A}, {api.CP855, 0xA0, 0x0430}, {api.CP855, 0xAF, 0xBB}, {api.CP855, 0xB0, 0x2591}, {api.CP855, 0xB2, 0x2593}, {api.CP855, 0xB3, 0x2502}, {api.CP855, 0xB5, 0x0445}, {api.CP855, 0xBD, 0x0439}, {api.CP855, 0xC6, 0x043A}, {api.CP855, 0xCF, 0xA4}, {api.CP855, 0xD8, 0x043F}, {api.CP855, 0xDD, 0x041F}, {api.CP855, 0xDE, 0x044F},
		{api.CP855, 0xE0, 0x042F}, {api.CP855, 0xE1, 0x0440}, {api.CP855, 0xEF, 0x2116}, {api.CP855, 0xF0, 0xAD}, {api.CP855, 0xFD, 0xA7}, {api.CP855, 0xFE, 0x25A0},
		{api.CP866, 0x9F, 0x042F}, {api.CP866, 0xA0, 0x0430}, {api.CP866, 0xAF, 0x043F}, {api.CP866, 0xB0, 0x2591}, {api.CP866, 0xB2, 0x2593}, {api.CP866, 0xB3, 0x2502}, {api.CP866, 0xDF, 0x2580}, {api.CP866, 0xE0, 0x0440}, {api.CP866, 0xEF, 0x044F}, {api.CP866, 0xF0, 0x0401}, {api.CP866, 0xF1, 0x0451}, {api.CP866, 0xF2, 0x0404}, {api.CP866, 0xF7, 0x045E},
		{api.CP866, 0xF8, 0xB0}, {api.CP866, 0xF9, 0x2219}, {api.CP866, 0xFA, 0xB7}, {api.CP866, 0xFB, 0x221A}, {api.CP866, 0xFC, 0x2116}, {api.CP866, 0xFD, 0xA4}, {api.CP866, 0xFE, 0x25A0},
		{api.MacRoman, 0x81, 0xC5}, {api.MacRoman, 0x9F, 0xFC}, {api.MacRoman, 0xA0, 0x2020}, {api.MacRoman, 0xA1, 0xB0}, {api.MacRoman, 0xAA, 0x2122}, {api.MacRoman, 0xAD, 0x2260}, {api.MacRoman, 0xB0, 0x221E}, {api.MacRoman, 0xB5, 0xB5}, {api.MacRoman, 0xB9, 0x03C0}, {api.MacRoman, 0xBD, 0x03A9}, {api.MacRoman, 0xC4, 0x0192}, {api.MacRoman, 0xC6, 0x2206}, {api.MacRoman, 0xC9, 0x2026}, {api.MacRoman, 0xCA, 0xA0},
		{api.MacRoman, 0xCE, 0x0152}, {api.MacRoman, 0xCF, 0x0153}, {api.MacRoman, 0xD0, 0x2013}, {api.MacRoman, 0xD7, 0x25CA}, {api.MacRoman, 0xD8, 0xFF}, {api.MacRoman, 0xD9, 0x0178}, {api.MacRoman, 0xDB, 0x20AC}, {api.MacRoman, 0xE0, 0x2021}, {api.MacRoman, 0xE5, 0xC2}, {api.MacRoman, 0xEA, 0xCD}, {api.MacRoman, 0xEC, 0xCF}, {api.MacRoman, 0xED, 0xCC}, {api.MacRoman, 0xF1, 0xD2}, {api.MacRoman, 0xF5, 0x0131},
		{api.MacRoman, 0xF6, 0x02C6}, {api.MacRoman, 0xF7, 0x02DC}, {api.MacRoman, 0xF8, 0xAF}, {api.MacRoman, 0xF9, 0x02D8}, {api.MacRoman, 0xFA, 0x02D9}, {api.MacRoman, 0xFB, 0x02DA}, {api.MacRoman, 0xFC, 0xB8}, {api.MacRoman, 0xFD, 0x02DD}, {api.MacRoman, 0xFE, 0x02DB},
		{api.MacCyr, 0x9F, 0x042F}, {api.MacCyr, 0xA0, 0x2020}, {api.MacCyr, 0xA1, 0xB0}, {api.MacCyr, 0xA2, 0x0490}, {api.MacCyr, 0xA7, 0x0406}, {api.MacCyr, 0xAB, 0x0402}, {api.MacCyr, 0xAC, 0x0452}, {api.MacCyr, 0xB4, 0x0456}, {api.MacCyr, 0xB5, 0xB5}, {api.MacCyr, 0xB6, 0x0491}, {api.MacCyr, 0xB7, 0x0408}, {api.MacCyr, 0xC0, 0x0458}, {api.MacCyr, 0xC1, 0x0405}, {api.MacCyr, 0xC4, 0x0192}, {api.MacCyr, 0xC9, 0x2026},
		{api.MacCyr, 0xCA, 0xA0}, {api.MacCyr, 0xCB, 0x040B}, {api.MacCyr, 0xCF, 0x0455}, {api.MacCyr, 0xD0, 0x2013}, {api.MacCyr, 0xD6, 0xF7}, {api.MacCyr, 0xD7, 0x201E}, {api.MacCyr, 0xD8, 0x040E}, {api.MacCyr, 0xDC, 0x2116}, {api.MacCyr, 0xDD, 0x0401}, {api.MacCyr, 0xDE, 0x0451}, {api.MacCyr, 0xDF, 0x044F}, {api.MacCyr, 0xE0, 0x0430}, {api.MacCyr, 0xFE, 0x044E},
	} {
		checkPlace(t, c.kind, c.b, c.u)
	}
}

// TestMacintosh: its own mark and the two joined letters have bytes there, and in no other kind.
func TestMacintosh(t *testing.T) {
	for u, b := range map[rune]byte{0xF8FF: 0xF0, 0xFB01: 0xDE, 0xFB02: 0xDF} {
		checkPlace(t, api.MacRoman, b, u)
		for _, c := range chapter {
			if got, ok := dos.Byte(c.kind, u); c.kind != api.MacRoman && (got != 0 || ok) {
				t.Errorf("Byte(%d, %04X) = %02X, %v", c.kind, u, got, ok)
			}
		}
	}
}

// checkPlace holds all calls at one byte, and at its scalar.
func checkPlace(t *testing.T, kind int, b byte, want rune) {
	t.Helper()
	l := dos.Flat(kind)
	if len(l) != 256 {
		t.Fatalf("Flat(%d): %d scalars", kind, len(l))
	}
	if u, ok := dos.Scalar(kind, b); u != want || !ok || l[b] != want {
		t.Errorf("kind %d, byte %02X: %04X, %v, flat %04X, want %04X", kind, b, u, ok, l[b], want)
	}
	if back, ok := dos.Byte(kind, want); back != b || !ok {
		t.Errorf("Byte(%d, %04X) = %02X, %v, want %02X", kind, want, back, ok, b)
	}
}

// TestAllStand: no list of the chapter has a byte that stands for nothing, so none is refused, and Flat says FFFD nowhere.
func TestAllStand(t *testing.T) {
	for _, m := range models(t) {
		if slices.Contains(m.scalars, nothing) {
			t.Errorf("kind %d: the chapter has a byte that stands for nothing", m.kind)
		}
		for b := range 256 {
			if u, ok := dos.Scalar(m.kind, byte(b)); !ok {
				t.Errorf("Scalar(%d, %02X) = %04X, false", m.kind, b, u)
			}
		}
		if l := dos.Flat(m.kind); len(l) != 256 || slices.Contains(l, 0xFFFD) {
			t.Errorf("Flat(%d): %04X", m.kind, l)
		}
	}
}

// Promise 11.1: the bytes of scalars.

// TestEveryNumber: Byte of every scalar in every kind, and of the numbers around them.
func TestEveryNumber(t *testing.T) {
	for _, m := range models(t) {
		for u := rune(-0x11000); u < 0x121000; u++ {
			m.checkByte(t, u)
		}
	}
}

// TestNoScalars: what is no scalar has no byte, not even where it is alike in its lowest bits.
func TestNoScalars(t *testing.T) {
	for _, m := range models(t) {
		for _, u := range noScalars {
			if b, ok := dos.Byte(m.kind, u); b != 0 || ok {
				t.Errorf("Byte(%d, %X) = %02X, %v", m.kind, u, b, ok)
			}
		}
		for _, u := range m.scalars {
			for _, v := range []rune{-u, ^u, u - 0x100, u + 0x100, u - 0x10000, u + 0x10000, u + 0x110000, u + 0x1000000, u + 0x40000000, math.MinInt32 + (u & 0xFFFF)} {
				m.checkByte(t, v)
			}
		}
	}
}

// TestMissing: FFFD is what Flat would say of a byte that stands for nothing; no byte stands for it.
func TestMissing(t *testing.T) {
	for _, m := range models(t) {
		for _, u := range []rune{0xFFFD, 0xFFFC, 0xFFFE, 0xFFFF, 0x1FFFD, 0x10FFFD} {
			if b, ok := dos.Byte(m.kind, u); b != 0 || ok {
				t.Errorf("Byte(%d, %X) = %02X, %v", m.kind, u, b, ok)
			}
		}
	}
}

// TestNoPlace: scalars just beside stretches and single ones, which no byte of the kind stands for.
func TestNoPlace(t *testing.T) {
	for kind, l := range map[int][]rune{
		api.CP437:    {0xA4, 0xA6, 0xA7, 0xA8, 0xA9, 0xAD, 0xAE, 0xAF, 0xB3, 0xB4, 0xB6, 0xB8, 0xB9, 0xBE, 0xC0, 0xC3, 0xC8, 0xCA, 0xD0, 0xD5, 0xD7, 0xD8, 0xDB, 0xDD, 0xDE, 0xE3, 0xF0, 0xF5, 0xF8, 0xFD, 0xFE, 0x0100, 0x0191, 0x0193, 0x0392, 0x0394, 0x0397, 0x0399, 0x03A2, 0x03A4, 0x03A5, 0x03A7, 0x03A8, 0x03AA, 0x03B0, 0x03B2, 0x03B3, 0x03B6, 0x03BC, 0x03BF, 0x03C1, 0x03C2, 0x03C5, 0x03C7, 0x207E, 0x2080, 0x20A6, 0x20A8, 0x20AC, 0x2126, 0x2218, 0x221B, 0x221D, 0x221F, 0x2228, 0x222A, 0x2247, 0x2249, 0x2260, 0x2262, 0x2263, 0x2266, 0x230F, 0x2311, 0x231F, 0x2322, 0x24FF, 0x2501, 0x2503, 0x254F, 0x256D, 0x257F, 0x2581, 0x2587, 0x258F, 0x2594, 0x259F, 0x25A1},
		api.CP850:    {0x0100, 0x0130, 0x0132, 0x0191, 0x0193, 0x03B1, 0x2016, 0x2018, 0x207F, 0x20A7, 0x20AC, 0x2310, 0x2320, 0x2501, 0x254F, 0x2552, 0x2556, 0x2561, 0x2562, 0x256D, 0x258C, 0x2590, 0x2594, 0x25A1},
		api.CP852:    {0xA1, 0xA2, 0xA3, 0xA5, 0xA6, 0xA9, 0xAA, 0xAE, 0xAF, 0xB1, 0xB2, 0xB3, 0xB5, 0xB6, 0xB7, 0xB9, 0xBA, 0xBC, 0xBF, 0xC0, 0xC3, 0xC5, 0xC6, 0xC8, 0xCA, 0xCC, 0xCF, 0xD0, 0xD2, 0xD5, 0xD8, 0xD9, 0xDB, 0xDE, 0xE0, 0xE3, 0xE5, 0xE6, 0xE8, 0xEA, 0xEC, 0xEF, 0xF0, 0xF2, 0xF5, 0xF8, 0xF9, 0xFB, 0xFE, 0xFF, 0x0100, 0x0101, 0x0108, 0x010B, 0x0112, 0x0117, 0x011C, 0x0131, 0x0138, 0x013B, 0x013C, 0x013F, 0x0140, 0x0145, 0x0146, 0x0149, 0x014F, 0x0152, 0x0153, 0x0156, 0x0157, 0x015C, 0x015D, 0x0166, 0x016D, 0x0172, 0x0178, 0x017F, 0x02C6, 0x02C8, 0x02DA, 0x02DC, 0x20AC, 0x2590, 0x2594, 0x25A1},
		api.CP855:    {0xA3, 0xA5, 0xA6, 0xA8, 0xA9, 0xAA, 0xAC, 0xAE, 0xAF, 0xB0, 0xB1, 0xB7, 0xBA, 0xBC, 0xC0, 0xFF, 0x0400, 0x040D, 0x0450, 0x045D, 0x0460, 0x0490, 0x0491, 0x20AC, 0x2115, 0x2117, 0x2219, 0x2552, 0x2556, 0x2590, 0x2594, 0x25A1},
		api.CP866:    {0xA1, 0xA3, 0xA5, 0xA7, 0xAB, 0xAF, 0xB1, 0xB6, 0xB8, 0xBB, 0xC0, 0xFF, 0x0400, 0x0402, 0x0403, 0x0405, 0x0406, 0x0408, 0x040D, 0x040F, 0x0450, 0x0452, 0x0453, 0x0455, 0x0456, 0x0458, 0x045D, 0x045F, 0x0490, 0x20AC, 0x2115, 0x2117, 0x2218, 0x221B, 0x254F, 0x256D, 0x2594, 0x25A1},
		api.MacRoman: {0xA4, 0xA6, 0xAD, 0xB2, 0xB3, 0xB9, 0xBC, 0xBD, 0xBE, 0xD0, 0xD7, 0xDD, 0xDE, 0xF0, 0xFD, 0xFE, 0x0100, 0x0130, 0x0132, 0x0151, 0x0154, 0x0160, 0x0177, 0x0179, 0x0191, 0x0193, 0x02C5, 0x02C8, 0x02D7, 0x02DE, 0x03A8, 0x03AA, 0x03BC, 0x03BF, 0x03C1, 0x2012, 0x2015, 0x2017, 0x201B, 0x201F, 0x2023, 0x2025, 0x2027, 0x202F, 0x2031, 0x2038, 0x203B, 0x2043, 0x2045, 0x20AB, 0x20AD, 0x2121, 0x2123, 0x2126, 0x2201, 0x2203, 0x2205, 0x2207, 0x220E, 0x2210, 0x2212, 0x2219, 0x221B, 0x221D, 0x221F, 0x222A, 0x222C, 0x2247, 0x2249, 0x225F, 0x2261, 0x2263, 0x2266, 0x25C9, 0x25CB, 0xF8FE, 0xF900, 0xFB00, 0xFB03},
		api.MacCyr:   {0xA1, 0xA2, 0xA4, 0xA5, 0xA6, 0xA8, 0xAA, 0xAD, 0xAF, 0xB2, 0xB3, 0xB4, 0xB7, 0xB8, 0xBA, 0xBC, 0xBF, 0xC0, 0xD7, 0xE0, 0xF6, 0xF8, 0xFF, 0x0191, 0x0193, 0x0400, 0x040D, 0x0450, 0x045D, 0x0460, 0x048F, 0x0492, 0x2012, 0x2015, 0x201A, 0x201B, 0x201F, 0x2021, 0x2023, 0x2030, 0x20AB, 0x20AD, 0x2115, 0x2117, 0x2205, 0x2207, 0x221B, 0x2247, 0x2249, 0x25CA, 0xF8FF, 0xFB01, 0xFB02},
	} {
		for _, u := range l {
			if b, ok := dos.Byte(kind, u); b != 0 || ok {
				t.Errorf("Byte(%d, %04X) = %02X, %v", kind, u, b, ok)
			}
		}
	}
}

// TestDoubles: no list of the chapter says a scalar twice, so every byte is the least one of its scalar.
func TestDoubles(t *testing.T) {
	for _, m := range models(t) {
		for b, u := range m.scalars {
			if got, ok := dos.Byte(m.kind, u); int(got) != b || !ok {
				t.Errorf("Byte(%d, %04X) = %02X, %v, want %02X", m.kind, u, got, ok, b)
			}
		}
	}
}

// Promises 11.1 and 11.2: kinds that are none of these.

func isKind(kind int) bool { return 60 <= kind && kind <= 66 }

// checkNoKind holds all calls at a kind that is none of these.
func checkNoKind(t *testing.T, kind int) {
	t.Helper()
	if dos.Has(kind) {
		t.Errorf("Has(%d) = true", kind)
	}
	if l := dos.Flat(kind); len(l) != 0 {
		t.Errorf("Flat(%d): %d scalars", kind, len(l))
	}
	for b := range 256 {
		if u, ok := dos.Scalar(kind, byte(b)); u != 0 || ok {
			t.Errorf("Scalar(%d, %02X) = %04X, %v", kind, b, u, ok)
		}
	}
	check := func(u rune) {
		if b, ok := dos.Byte(kind, u); b != 0 || ok {
			t.Errorf("Byte(%d, %X) = %02X, %v", kind, u, b, ok)
		}
	}
	for u := range rune(0x700) {
		check(u)
	}
	for _, u := range []rune{0x2013, 0x2017, 0x2020, 0x207F, 0x20A7, 0x20AC, 0x2116, 0x2122, 0x2202, 0x2219, 0x2260, 0x2310, 0x2500, 0x2550, 0x256C, 0x2591, 0x25A0, 0x25CA, 0xF8FF, 0xFB01, 0xFB02, 0xFFFC, 0xFFFD, 0xFFFE, 0x1F600, 0x10FFFF} {
		check(u)
	}
	for _, u := range noScalars {
		check(u)
	}
}

// TestKinds: which numbers are kinds, and what is told of those that are none.
func TestKinds(t *testing.T) {
	has := map[int]bool{}
	for _, c := range chapter {
		has[c.kind] = true
	}
	for kind := -2000; kind <= 2000; kind++ {
		if isKind(kind) != has[kind] || isKind(kind) != dos.Has(kind) {
			t.Errorf("Has(%d) = %v", kind, dos.Has(kind))
		}
		if !isKind(kind) {
			checkNoKind(t, kind)
		}
	}
	for _, kind := range []int{math.MinInt, math.MinInt + 60, math.MinInt32, -1 << 32, -65536, math.MaxInt32, 1 << 31, 1 << 32, math.MaxInt - 60, math.MaxInt} {
		checkNoKind(t, kind)
	}
	for kind := 60; kind <= 66; kind++ {
		for _, far := range []int{1 << 8, 1 << 16, 1 << 31, 1 << 32, 1 << 40, math.MinInt} {
			checkNoKind(t, kind+far)
			checkNoKind(t, -kind-far)
		}
		checkNoKind(t, -kind)
		checkNoKind(t, ^kind)
	}
}

// TestOtherLayers: the kinds of the other layers, and the numbers beside those of this one.
func TestOtherLayers(t *testing.T) {
	for _, kind := range []int{
		api.ASCII, api.UTF8, api.UTF16BE, api.UTF16LE, api.UTF16, api.UTF32BE, api.UTF32LE, api.UTF32, api.UCS2BE, api.UCS2LE, api.UTF7,
		api.ISO1, api.ISO2, api.ISO3, api.ISO4, api.ISO5, api.ISO6, api.ISO7, api.ISO8, api.ISO9, api.ISO10, api.ISO11, api.ISO13, api.ISO14, api.ISO15, api.ISO16,
		api.KOI8R, api.KOI8U, api.CP1250, api.CP1251, api.CP1252, api.CP1253, api.CP1254, api.CP1255, api.CP1256, api.CP1257, api.CP1258, api.CP037, api.CP500, api.CP1026,
		api.JIS0201, api.EUCJP, api.ShiftJIS, api.ISO2022JP, api.EUCCN, api.HZ, api.EUCKR, api.JOHAB, api.ISO2022KR, api.MostKind + 1,
		api.CP437 - 1, api.MacCyr + 1, 0, -1,
	} {
		checkNoKind(t, kind)
	}
}

// Promise 11.2 and R4: what Flat answers is its caller's.
func TestFlatIsNew(t *testing.T) {
	all := models(t)
	for _, m := range all {
		l, other := dos.Flat(m.kind), dos.Flat(m.kind)
		before := slices.Clone(other)
		l = l[:cap(l)]
		for i := range l {
			l[i] = 'x'
		}
		if !slices.Equal(other, before) {
			t.Fatalf("kind %d: two lists share memory", m.kind)
		}
		for _, each := range all {
			each.check(t)
		}
	}
}

// Promise 11.3.

// TestThereAndBack: Scalar of Byte, and Byte of Scalar, by the program's own answers.
func TestThereAndBack(t *testing.T) {
	for _, c := range chapter {
		bytes, scalars := 0, 0
		for n := range 256 {
			u, ok := dos.Scalar(c.kind, byte(n))
			if !ok {
				continue
			}
			bytes++
			b, ok := dos.Byte(c.kind, u)
			if again, still := dos.Scalar(c.kind, b); !ok || int(b) > n || again != u || !still {
				t.Errorf("kind %d: %02X is %04X, which is %02X, %v, which is %04X, %v", c.kind, n, u, b, ok, again, still)
			}
		}
		for u := rune(0); u <= 0x10FFFF; u++ {
			b, ok := dos.Byte(c.kind, u)
			if !ok {
				continue
			}
			scalars++
			if back, ok := dos.Scalar(c.kind, b); back != u || !ok {
				t.Errorf("kind %d: %04X is %02X, which is %04X, %v", c.kind, u, b, back, ok)
			}
		}
		if bytes != 256 || scalars != 256 {
			t.Errorf("kind %d: %d bytes and %d scalars", c.kind, bytes, scalars)
		}
	}
}
