package ebcdic_test

import (
	"fmt"
	"math"
	"slices"
	"strconv"
	"strings"
	"testing"

	"dragoman/api"
	"dragoman/ebcdic"
)

// chapter is the document's lists, letter by letter.
var chapter = []struct {
	kind int
	list string
}{
	{api.CP037, "0000-0003 009C 0009 0086 007F 0097 008D 008E 000B-0013 009D 0085 0008 0087 0018 0019 0092 008F 001C-001F 0080-0084 000A 0017 001B 0088-008C 0005-0007 0090 0091 0016 0093-0096 0004 0098-009B 0014 0015 009E 001A 0020 00A0 00E2 00E4 00E0 00E1 00E3 00E5 00E7 00F1 00A2 002E 003C 0028 002B 007C 0026 00E9-00EB 00E8 00ED-00EF 00EC 00DF 0021 0024 002A 0029 003B 00AC 002D 002F 00C2 00C4 00C0 00C1 00C3 00C5 00C7 00D1 00A6 002C 0025 005F 003E 003F 00F8 00C9-00CB 00C8 00CD-00CF 00CC 0060 003A 0023 0040 0027 003D 0022 00D8 0061-0069 00AB 00BB 00F0 00FD 00FE 00B1 00B0 006A-0072 00AA 00BA 00E6 00B8 00C6 00A4 00B5 007E 0073-007A 00A1 00BF 00D0 00DD 00DE 00AE 005E 00A3 00A5 00B7 00A9 00A7 00B6 00BC-00BE 005B 005D 00AF 00A8 00B4 00D7 007B 0041-0049 00AD 00F4 00F6 00F2 00F3 00F5 007D 004A-0052 00B9 00FB 00FC 00F9 00FA 00FF 005C 00F7 0053-005A 00B2 00D4 00D6 00D2 00D3 00D5 0030-0039 00B3 00DB 00DC 00D9 00DA 009F"},
	{api.CP500, "0000-0003 009C 0009 0086 007F 0097 008D 008E 000B-0013 009D 0085 0008 0087 0018 0019 0092 008F 001C-001F 0080-0084 000A 0017 001B 0088-008C 0005-0007 0090 0091 0016 0093-0096 0004 0098-009B 0014 0015 009E 001A 0020 00A0 00E2 00E4 00E0 00E1 00E3 00E5 00E7 00F1 005B 002E 003C 0028 002B 0021 0026 00E9-00EB 00E8 00ED-00EF 00EC 00DF 005D 0024 002A 0029 003B 005E 002D 002F 00C2 00C4 00C0 00C1 00C3 00C5 00C7 00D1 00A6 002C 0025 005F 003E 003F 00F8 00C9-00CB 00C8 00CD-00CF 00CC 0060 003A 0023 0040 0027 003D 0022 00D8 0061-0069 00AB 00BB 00F0 00FD 00FE 00B1 00B0 006A-0072 00AA 00BA 00E6 00B8 00C6 00A4 00B5 007E 0073-007A 00A1 00BF 00D0 00DD 00DE 00AE 00A2 00A3 00A5 00B7 00A9 00A7 00B6 00BC-00BE 00AC 007C 00AF 00A8 00B4 00D7 007B 0041-0049 00AD 00F4 00F6 00F2 00F3 00F5 007D 004A-0052 00B9 00FB 00FC 00F9 00FA 00FF 005C 00F7 0053-005A 00B2 00D4 00D6 00D2 00D3 00D5 0030-0039 00B3 00DB 00DC 00D9 00DA 009F"},
	{api.CP1026, "0000-0003 009C 0009 0086 007F 0097 008D 008E 000B-0013 009D 0085 0008 0087 0018 0019 0092 008F 001C-001F 0080-0084 000A 0017 001B 0088-008C 0005-0007 0090 0091 0016 0093-0096 0004 0098-009B 0014 0015 009E 001A 0020 00A0 00E2 00E4 00E0 00E1 00E3 00E5 007B 00F1 00C7 002E 003C 0028 002B 0021 0026 00E9-00EB 00E8 00ED-00EF 00EC 00DF 011E 0130 002A 0029 003B 005E 002D 002F 00C2 00C4 00C0 00C1 00C3 00C5 005B 00D1 015F 002C 0025 005F 003E 003F 00F8 00C9-00CB 00C8 00CD-00CF 00CC 0131 003A 00D6 015E 0027 003D 00DC 00D8 0061-0069 00AB 00BB 007D 0060 00A6 00B1 00B0 006A-0072 00AA 00BA 00E6 00B8 00C6 00A4 00B5 00F6 0073-007A 00A1 00BF 005D 0024 0040 00AE 00A2 00A3 00A5 00B7 00A9 00A7 00B6 00BC-00BE 00AC 007C 00AF 00A8 00B4 00D7 00E7 0041-0049 00AD 00F4 007E 00F2 00F3 00F5 011F 004A-0052 00B9 00FB 005C 00F9 00FA 00FF 00FC 00F7 0053-005A 00B2 00D4 0023 00D2 00D3 00D5 0030-0039 00B3 00DB 0022 00D9 00DA 009F"},
}

const nothing = -1 // what read and model say of a byte that stands for nothing

// read is the scalars that a list of the document says, one by one.
func read(list string) ([]rune, error) {
	var l []rune
	for _, word := range strings.Fields(list) {
		more, err := readWord(word)
		if err != nil {
			return nil, fmt.Errorf("%s: %w", word, err)
		}
		l = append(l, more...)
	}
	return l, nil
}

func readWord(word string) ([]rune, error) {
	if word == "----" {
		return []rune{nothing}, nil
	}
	if n, ok := strings.CutPrefix(word, "----*"); ok {
		times, err := strconv.Atoi(n)
		if err != nil || times < 1 {
			return nil, fmt.Errorf("%d times: %v", times, err)
		}
		return slices.Repeat([]rune{nothing}, times), nil
	}
	from, to, ok := strings.Cut(word, "-")
	if !ok {
		to = from
	}
	a, err := strconv.ParseInt(from, 16, 32)
	if err != nil {
		return nil, err
	}
	b, err := strconv.ParseInt(to, 16, 32)
	if err != nil {
		return nil, err
	}
	var l []rune
	for u := a; u <= b; u++ {
		l = append(l, rune(u))
	}
	return l, nil
}

// model is a kind by the document's lists, apart from the program.
type model struct {
	kind    int
	scalars []rune        // of all bytes
	bytes   map[rune]byte // the least of each scalar
}

// models are those of all kinds.
func models(t *testing.T) []model {
	t.Helper()
	var all []model
	for _, c := range chapter {
		m := model{kind: c.kind, bytes: map[rune]byte{}}
		l, err := read(c.list)
		if err != nil || len(l) != 256 {
			t.Fatalf("kind %d: a list of %d, %v", c.kind, len(l), err)
		}
		m.scalars = l
		for b := 255; b >= 0; b-- {
			if u := m.scalars[b]; u != nothing {
				m.bytes[u] = byte(b)
			}
		}
		all = append(all, m)
	}
	return all
}

func (m model) checkScalar(t *testing.T, b byte) {
	t.Helper()
	want, wantOK := m.scalars[b], true
	if want == nothing {
		want, wantOK = 0, false
	}
	if u, ok := ebcdic.Scalar(m.kind, b); u != want || ok != wantOK {
		t.Fatalf("Scalar(%d, %02X) = %04X, %v, want %04X, %v", m.kind, b, u, ok, want, wantOK)
	}
}

func (m model) checkByte(t *testing.T, u rune) {
	t.Helper()
	want, wantOK := m.bytes[u]
	if b, ok := ebcdic.Byte(m.kind, u); b != want || ok != wantOK {
		t.Fatalf("Byte(%d, %04X) = %02X, %v, want %02X, %v", m.kind, u, b, ok, want, wantOK)
	}
}

func (m model) checkFlat(t *testing.T) {
	t.Helper()
	l := ebcdic.Flat(m.kind)
	if len(l) != 256 {
		t.Fatalf("Flat(%d): %d scalars", m.kind, len(l))
	}
	for b, want := range m.scalars {
		if want == nothing {
			want = 0xFFFD
		}
		if l[b] != want {
			t.Fatalf("Flat(%d) at %02X: %04X, want %04X", m.kind, b, l[b], want)
		}
	}
}

// check holds a kind at all its bytes, at its scalars, at those beside them, and at its flat list.
func (m model) check(t *testing.T) {
	t.Helper()
	if !ebcdic.Has(m.kind) {
		t.Fatalf("Has(%d) = false", m.kind)
	}
	for b := range 256 {
		m.checkScalar(t, byte(b))
	}
	for _, u := range m.scalars {
		for _, v := range []rune{u - 1, u, u + 1} {
			m.checkByte(t, v)
		}
	}
	m.checkFlat(t)
}

// noScalars are numbers that are no scalars, at both sides of what is one, and far away.
var noScalars = []rune{
	math.MinInt32, math.MinInt32 + 1, math.MinInt32 + 'A', math.MinInt32 + 0x80, math.MinInt32 + 0x015F, math.MinInt32 + 0xFFFD, -0x1000000 + 'A', -0x110000, -0x10FFFF, -0x10000, -0xFFFD,
	-0x0130, -257, -256, -255, -0xA0, -0x81, -0x80, -0x7F, -'A', -2, -1,
	0xD800, 0xD801, 0xD841, 0xDBFF, 0xDC00, 0xDC80, 0xDFFE, 0xDFFF,
	0x110000, 0x110001, 0x110000 + 'A', 0x110080, 0x11015F, 0x11FFFD, 0x200000 + 'A', 0x1000000 + 'A', 0x1000080, 0x100015F, 0x40000000 + 'A', math.MaxInt32 - 0x7F, math.MaxInt32 - 1, math.MaxInt32,
}

// TestExample: the chapter's.
func TestExample(t *testing.T) {
	if u, ok := ebcdic.Scalar(api.CP037, 5); u != 0x09 || !ok {
		t.Errorf("Scalar: %04X, %v", u, ok)
	}
	if b, ok := ebcdic.Byte(api.CP037, 0x09); b != 5 || !ok {
		t.Errorf("Byte: %02X, %v", b, ok)
	}
	for _, kind := range []int{-1, 0, api.ISO1} {
		checkNoKind(t, kind)
	}
}

// TestRead: what the lists are held against is read as the chapter says.
func TestRead(t *testing.T) {
	for _, c := range []struct {
		list string
		want []rune
	}{
		{"00A0", []rune{0xA0}},
		{"00A0 20AC", []rune{0xA0, 0x20AC}},
		{"00A6-00A9", []rune{0xA6, 0xA7, 0xA8, 0xA9}},
		{"---- 00AD ----", []rune{nothing, 0xAD, nothing}},
		{"00A0 ----*3 00A4 ----*2", []rune{0xA0, nothing, nothing, nothing, 0xA4, nothing, nothing}},
	} {
		if l, err := read(c.list); err != nil || !slices.Equal(l, c.want) {
			t.Errorf("%s: %X, %v", c.list, l, err)
		}
	}
	for _, list := range []string{"00A0 x", "----*", "----*0", "00A0-", "-00A0"} {
		if l, err := read(list); err == nil {
			t.Errorf("%s: %X", list, l)
		}
	}
	if n := len(models(t)); n != 3 {
		t.Errorf("%d lists", n)
	}
}

// Promises 12.1 and 12.2: the kinds, byte by byte.

// TestLists: all bytes of every kind, and all its scalars.
func TestLists(t *testing.T) {
	for _, m := range models(t) {
		m.check(t)
	}
}

// TestEnds: 00, 7F, 80 and FF of every kind, as one finds them in the chapter by eye.
func TestEnds(t *testing.T) {
	for kind, u := range map[int]rune{api.CP037: 0x22, api.CP500: 0x22, api.CP1026: 0xDC} {
		checkPlace(t, kind, 0x00, 0x00)
		checkPlace(t, kind, 0x7F, u)
		checkPlace(t, kind, 0x80, 0xD8)
		checkPlace(t, kind, 0xFF, 0x9F)
	}
}

// TestZero: the scalar 0 has the byte 0, which is told from there being none.
func TestZero(t *testing.T) {
	for _, c := range chapter {
		if b, ok := ebcdic.Byte(c.kind, 0); b != 0 || !ok {
			t.Errorf("Byte(%d, 0) = %02X, %v", c.kind, b, ok)
		}
		if u, ok := ebcdic.Scalar(c.kind, 0); u != 0 || !ok {
			t.Errorf("Scalar(%d, 0) = %04X, %v", c.kind, u, ok)
		}
	}
}

// TestSameNumber: only a few bytes stand for the scalar of the same number; below 80 too.
func TestSameNumber(t *testing.T) {
	same := []byte{0x00, 0x01, 0x02, 0x03, 0x0B, 0x0C, 0x0D, 0x0E, 0x0F, 0x10, 0x11, 0x12, 0x13, 0x18, 0x19, 0x1C, 0x1D, 0x1E, 0x1F, 0xB6}
	for _, c := range chapter {
		l := ebcdic.Flat(c.kind)
		if len(l) != 256 {
			t.Fatalf("Flat(%d): %d scalars", c.kind, len(l))
		}
		for n := range 256 {
			want := slices.Contains(same, byte(n))
			if u, ok := ebcdic.Scalar(c.kind, byte(n)); !ok || (u == rune(n)) != want || (l[n] == rune(n)) != want {
				t.Errorf("Scalar(%d, %02X) = %04X, %v, flat %04X", c.kind, n, u, ok, l[n])
			}
			if b, ok := ebcdic.Byte(c.kind, rune(n)); (ok && int(b) == n) != want {
				t.Errorf("Byte(%d, %04X) = %02X, %v", c.kind, n, b, ok)
			}
		}
	}
}

// TestControls: the bytes 00 to 3F, and FF, are those of the scalars 00 to 1F and 7F to 9F, the same in every kind.
func TestControls(t *testing.T) {
	controls := []rune{
		0x00, 0x01, 0x02, 0x03, 0x9C, 0x09, 0x86, 0x7F, 0x97, 0x8D, 0x8E, 0x0B, 0x0C, 0x0D, 0x0E, 0x0F,
		0x10, 0x11, 0x12, 0x13, 0x9D, 0x85, 0x08, 0x87, 0x18, 0x19, 0x92, 0x8F, 0x1C, 0x1D, 0x1E, 0x1F,
		0x80, 0x81, 0x82, 0x83, 0x84, 0x0A, 0x17, 0x1B, 0x88, 0x89, 0x8A, 0x8B, 0x8C, 0x05, 0x06, 0x07,
		0x90, 0x91, 0x16, 0x93, 0x94, 0x95, 0x96, 0x04, 0x98, 0x99, 0x9A, 0x9B, 0x14, 0x15, 0x9E, 0x1A,
	}
	for _, c := range chapter {
		for b, u := range controls {
			checkPlace(t, c.kind, byte(b), u)
		}
		checkPlace(t, c.kind, 0xFF, 0x9F)
		for b := 0x40; b < 0xFF; b++ {
			if u, ok := ebcdic.Scalar(c.kind, byte(b)); u < 0x20 || 0x7F <= u && u < 0xA0 {
				t.Errorf("Scalar(%d, %02X) = %04X, %v", c.kind, b, u, ok)
			}
		}
	}
}

// TestLetters: letters and digits stand in stretches, which are the same in every kind.
func TestLetters(t *testing.T) {
	for _, c := range chapter {
		for first, text := range map[byte]string{0x81: "abcdefghi", 0x91: "jklmnopqr", 0xA2: "stuvwxyz", 0xC1: "ABCDEFGHI", 0xD1: "JKLMNOPQR", 0xE2: "STUVWXYZ", 0xF0: "0123456789"} {
			for i, u := range text {
				checkPlace(t, c.kind, first+byte(i), u)
			}
		}
	}
}

// TestDifferences: at which bytes the kinds are not alike, and what these stand for, as one finds it by eye.
func TestDifferences(t *testing.T) {
	kinds := []int{api.CP037, api.CP500, api.CP1026}
	different := map[byte][3]rune{
		0x48: {0xE7, 0xE7, 0x7B},
		0x4A: {0xA2, 0x5B, 0xC7},
		0x4F: {0x7C, 0x21, 0x21},
		0x5A: {0x21, 0x5D, 0x011E},
		0x5B: {0x24, 0x24, 0x0130},
		0x5F: {0xAC, 0x5E, 0x5E},
		0x68: {0xC7, 0xC7, 0x5B},
		0x6A: {0xA6, 0xA6, 0x015F},
		0x79: {0x60, 0x60, 0x0131},
		0x7B: {0x23, 0x23, 0xD6},
		0x7C: {0x40, 0x40, 0x015E},
		0x7F: {0x22, 0x22, 0xDC},
		0x8C: {0xF0, 0xF0, 0x7D},
		0x8D: {0xFD, 0xFD, 0x60},
		0x8E: {0xFE, 0xFE, 0xA6},
		0xA1: {0x7E, 0x7E, 0xF6},
		0xAC: {0xD0, 0xD0, 0x5D},
		0xAD: {0xDD, 0xDD, 0x24},
		0xAE: {0xDE, 0xDE, 0x40},
		0xB0: {0x5E, 0xA2, 0xA2},
		0xBA: {0x5B, 0xAC, 0xAC},
		0xBB: {0x5D, 0x7C, 0x7C},
		0xC0: {0x7B, 0x7B, 0xE7},
		0xCC: {0xF6, 0xF6, 0x7E},
		0xD0: {0x7D, 0x7D, 0x011F},
		0xDC: {0xFC, 0xFC, 0x5C},
		0xE0: {0x5C, 0x5C, 0xFC},
		0xEC: {0xD6, 0xD6, 0x23},
		0xFC: {0xDC, 0xDC, 0x22},
	}
	for n := range 256 {
		b := byte(n)
		want, ok := different[b]
		if !ok {
			u, _ := ebcdic.Scalar(api.CP037, b)
			want = [3]rune{u, u, u}
		}
		for i, kind := range kinds {
			checkPlace(t, kind, b, want[i])
		}
	}
}

// TestPlaces: some bytes, those at both ends of the lists' stretches and beside them among them, as one finds them by eye.
func TestPlaces(t *testing.T) {
	for b, u := range map[byte]rune{
		0x40: 0x20, 0x41: 0xA0, 0x42: 0xE2, 0x47: 0xE5, 0x49: 0xF1, 0x4B: 0x2E, 0x4C: 0x3C, 0x4D: 0x28, 0x4E: 0x2B,
		0x50: 0x26, 0x51: 0xE9, 0x52: 0xEA, 0x53: 0xEB, 0x54: 0xE8, 0x55: 0xED, 0x56: 0xEE, 0x57: 0xEF, 0x58: 0xEC, 0x59: 0xDF, 0x5C: 0x2A, 0x5D: 0x29, 0x5E: 0x3B,
		0x60: 0x2D, 0x61: 0x2F, 0x62: 0xC2, 0x67: 0xC5, 0x69: 0xD1, 0x6B: 0x2C, 0x6C: 0x25, 0x6D: 0x5F, 0x6E: 0x3E, 0x6F: 0x3F,
		0x70: 0xF8, 0x71: 0xC9, 0x72: 0xCA, 0x73: 0xCB, 0x74: 0xC8, 0x75: 0xCD, 0x76: 0xCE, 0x77: 0xCF, 0x78: 0xCC, 0x7A: 0x3A, 0x7D: 0x27, 0x7E: 0x3D,
		0x80: 0xD8, 0x8A: 0xAB, 0x8B: 0xBB, 0x8F: 0xB1, 0x90: 0xB0, 0x9A: 0xAA, 0x9B: 0xBA, 0x9C: 0xE6, 0x9D: 0xB8, 0x9E: 0xC6, 0x9F: 0xA4,
		0xA0: 0xB5, 0xAA: 0xA1, 0xAB: 0xBF, 0xAF: 0xAE, 0xB1: 0xA3, 0xB2: 0xA5, 0xB3: 0xB7, 0xB4: 0xA9, 0xB5: 0xA7, 0xB6: 0xB6, 0xB7: 0xBC, 0xB8: 0xBD, 0xB9: 0xBE, 0xBC: 0xAF, 0xBD: 0xA8, 0xBE: 0xB4, 0xBF: 0xD7,
		0xCA: 0xAD, 0xCB: 0xF4, 0xCD: 0xF2, 0xCE: 0xF3, 0xCF: 0xF5, 0xDA: 0xB9, 0xDB: 0xFB, 0xDD: 0xF9, 0xDE: 0xFA, 0xDF: 0xFF,
		0xE1: 0xF7, 0xEA: 0xB2, 0xEB: 0xD4, 0xED: 0xD2, 0xEE: 0xD3, 0xEF: 0xD5, 0xFA: 0xB3, 0xFB: 0xDB, 0xFD: 0xD9, 0xFE: 0xDA,
	} {
		for _, c := range chapter {
			checkPlace(t, c.kind, b, u)
		}
	}
}

// TestScalars: two kinds have all scalars below 100 and no other; IBM1026 has six Turkish letters in the place of six of these.
func TestScalars(t *testing.T) {
	without, instead := []rune{0xD0, 0xDD, 0xDE, 0xF0, 0xFD, 0xFE}, []rune{0x011E, 0x011F, 0x0130, 0x0131, 0x015E, 0x015F}
	for _, c := range chapter {
		turkish := c.kind == api.CP1026
		for u := rune(0); u < 0x300; u++ {
			want := u < 0x100
			if turkish {
				want = want && !slices.Contains(without, u) || slices.Contains(instead, u)
			}
			if b, ok := ebcdic.Byte(c.kind, u); ok != want || !ok && b != 0 {
				t.Errorf("Byte(%d, %04X) = %02X, %v", c.kind, u, b, ok)
			}
		}
	}
}

// checkPlace holds all calls at one byte, and at its scalar.
func checkPlace(t *testing.T, kind int, b byte, want rune) {
	t.Helper()
	l := ebcdic.Flat(kind)
	if len(l) != 256 {
		t.Fatalf("Flat(%d): %d scalars", kind, len(l))
	}
	if u, ok := ebcdic.Scalar(kind, b); u != want || !ok || l[b] != want {
		t.Errorf("kind %d, byte %02X: %04X, %v, flat %04X, want %04X", kind, b, u, ok, l[b], want)
	}
	if back, ok := ebcdic.Byte(kind, want); back != b || !ok {
		t.Errorf("Byte(%d, %04X) = %02X, %v, want %02X", kind, want, back, ok, b)
	}
}

// TestAllStand: no list of the chapter has a byte that stands for nothing, so none is refused, and Flat says FFFD nowhere.
func TestAllStand(t *testing.T) {
	for _, m := range models(t) {
		if slices.Contains(m.scalars, nothing) {
			t.Errorf("kind %d: the chapter has a byte that stands for nothing", m.kind)
		}
		for b := range 256 {
			if u, ok := ebcdic.Scalar(m.kind, byte(b)); !ok {
				t.Errorf("Scalar(%d, %02X) = %04X, false", m.kind, b, u)
			}
		}
		if l := ebcdic.Flat(m.kind); len(l) != 256 || slices.Contains(l, 0xFFFD) {
			t.Errorf("Flat(%d): %04X", m.kind, l)
		}
	}
}

// Promise 12.1: the bytes of scalars.

// TestEveryNumber: Byte of every scalar in every kind, and of the numbers around them.
func TestEveryNumber(t *testing.T) {
	for _, m := range models(t) {
		for u := rune(-0x11000); u < 0x121000; u++ {
			m.checkByte(t, u)
		}
	}
}

// TestNoScalars: what is no scalar has no byte, not even where it is alike in its lowest bits.
func TestNoScalars(t *testing.T) {
	for _, m := range models(t) {
		for _, u := range noScalars {
			if b, ok := ebcdic.Byte(m.kind, u); b != 0 || ok {
				t.Errorf("Byte(%d, %X) = %02X, %v", m.kind, u, b, ok)
			}
		}
		for _, u := range m.scalars {
			for _, v := range []rune{-u, ^u, u - 0x100, u + 0x100, u - 0x10000, u + 0x10000, u + 0x110000, u + 0x1000000, u + 0x40000000, math.MinInt32 + (u & 0xFFFF)} {
				m.checkByte(t, v)
			}
		}
	}
}

// TestMissing: FFFD is what Flat would say of a byte that stands for nothing; no byte stands for it.
func TestMissing(t *testing.T) {
	for _, m := range models(t) {
		for _, u := range []rune{0xFFFD, 0xFFFC, 0xFFFE, 0xFFFF, 0x1FFFD, 0x10FFFD} {
			if b, ok := ebcdic.Byte(m.kind, u); b != 0 || ok {
				t.Errorf("Byte(%d, %X) = %02X, %v", m.kind, u, b, ok)
			}
		}
	}
}

// TestNoPlace: scalars just beside stretches and single ones, which no byte of the kind stands for.
func TestNoPlace(t *testing.T) {
	for kind, l := range map[int][]rune{
		api.CP037:  {-1, 0x0100, 0x0101, 0x011E, 0x011F, 0x0130, 0x0131, 0x015E, 0x015F, 0x0178, 0x20AC, 0x2126, 0xFF01},
		api.CP500:  {-1, 0x0100, 0x0101, 0x011E, 0x011F, 0x0130, 0x0131, 0x015E, 0x015F, 0x0178, 0x20AC, 0x2126, 0xFF01},
		api.CP1026: {-1, 0xD0, 0xDD, 0xDE, 0xF0, 0xFD, 0xFE, 0x0100, 0x0101, 0x011D, 0x0120, 0x012F, 0x0132, 0x015D, 0x0160, 0x0178, 0x20AC, 0x2126, 0xFF01},
	} {
		for _, u := range l {
			if b, ok := ebcdic.Byte(kind, u); b != 0 || ok {
				t.Errorf("Byte(%d, %04X) = %02X, %v", kind, u, b, ok)
			}
		}
	}
}

// TestDoubles: no list of the chapter says a scalar twice, so every byte is the least one of its scalar.
func TestDoubles(t *testing.T) {
	for _, m := range models(t) {
		for b, u := range m.scalars {
			if got, ok := ebcdic.Byte(m.kind, u); int(got) != b || !ok {
				t.Errorf("Byte(%d, %04X) = %02X, %v, want %02X", m.kind, u, got, ok, b)
			}
		}
	}
}

// Promises 12.1 and 12.2: kinds that are none of these.

func isKind(kind int) bool { return 70 <= kind && kind <= 72 }

// checkNoKind holds all calls at a kind that is none of these.
func checkNoKind(t *testing.T, kind int) {
	t.Helper()
	if ebcdic.Has(kind) {
		t.Errorf("Has(%d) = true", kind)
	}
	if l := ebcdic.Flat(kind); len(l) != 0 {
		t.Errorf("Flat(%d): %d scalars", kind, len(l))
	}
	for b := range 256 {
		if u, ok := ebcdic.Scalar(kind, byte(b)); u != 0 || ok {
			t.Errorf("Scalar(%d, %02X) = %04X, %v", kind, b, u, ok)
		}
	}
	check := func(u rune) {
		if b, ok := ebcdic.Byte(kind, u); b != 0 || ok {
			t.Errorf("Byte(%d, %X) = %02X, %v", kind, u, b, ok)
		}
	}
	for u := range rune(0x700) {
		check(u)
	}
	for _, u := range []rune{0x20AC, 0x2126, 0x2500, 0xF8FF, 0xFFFC, 0xFFFD, 0xFFFE, 0x1F600, 0x10FFFF} {
		check(u)
	}
	for _, u := range noScalars {
		check(u)
	}
}

// TestKinds: which numbers are kinds, and what is told of those that are none.
func TestKinds(t *testing.T) {
	has := map[int]bool{}
	for _, c := range chapter {
		has[c.kind] = true
	}
	for kind := -2000; kind <= 2000; kind++ {
		if isKind(kind) != has[kind] || isKind(kind) != ebcdic.Has(kind) {
			t.Errorf("Has(%d) = %v", kind, ebcdic.Has(kind))
		}
		if !isKind(kind) {
			checkNoKind(t, kind)
		}
	}
	for _, kind := range []int{math.MinInt, math.MinInt + 70, math.MinInt32, -1 << 32, -65536, math.MaxInt32, 1 << 31, 1 << 32, math.MaxInt - 70, math.MaxInt} {
		checkNoKind(t, kind)
	}
	for kind := 70; kind <= 72; kind++ {
		for _, far := range []int{1 << 8, 1 << 16, 1 << 31, 1 << 32, 1 << 40, math.MinInt} {
			checkNoKind(t, kind+far)
			checkNoKind(t, -kind-far)
		}
		checkNoKind(t, -kind)
		checkNoKind(t, ^kind)
	}
}

// TestOtherLayers: the kinds of the other layers, and the numbers beside those of this one.
func TestOtherLayers(t *testing.T) {
	for _, kind := range []int{
		api.ASCII, api.UTF8, api.UTF16BE, api.UTF16LE, api.UTF16, api.UTF32BE, api.UTF32LE, api.UTF32, api.UCS2BE, api.UCS2LE, api.UTF7,
		api.ISO1, api.ISO2, api.ISO3, api.ISO4, api.ISO5, api.ISO6, api.ISO7, api.ISO8, api.ISO9, api.ISO10, api.ISO11, api.ISO13, api.ISO14, api.ISO15, api.ISO16,
		api.KOI8R, api.KOI8U, api.CP1250, api.CP1251, api.CP1252, api.CP1253, api.CP1254, api.CP1255, api.CP1256, api.CP1257, api.CP1258, api.CP437, api.CP850, api.CP852, api.CP855, api.CP866, api.MacRoman, api.MacCyr,
		api.JIS0201, api.EUCJP, api.ShiftJIS, api.ISO2022JP, api.EUCCN, api.HZ, api.EUCKR, api.JOHAB, api.ISO2022KR, api.MostKind + 1,
		api.CP037 - 1, api.CP1026 + 1, 0, -1,
	} {
		checkNoKind(t, kind)
	}
}

// Promise 12.2 and R4: what Flat answers is its caller's.
func TestFlatIsNew(t *testing.T) {
	all := models(t)
	for _, m := range all {
		l, other := ebcdic.Flat(m.kind), ebcdic.Flat(m.kind)
		before := slices.Clone(other)
		l = l[:cap(l)]
		for i := range l {
			l[i] = 'x'
		}
		if !slices.Equal(other, before) {
			t.Fatalf("kind %d: two lists share memory", m.kind)
		}
		for _, each := range all {
			each.check(t)
		}
	}
}

// Promise 12.3.

// TestThereAndBack: Scalar of Byte, and Byte of Scalar, by the program's own answers.
func TestThereAndBack(t *testing.T) {
	for _, c := range chapter {
		bytes, scalars := 0, 0
		for n := range 256 {
			u, ok := ebcdic.Scalar(c.kind, byte(n))
			if !ok {
				continue
			}
			bytes++
			b, ok := ebcdic.Byte(c.kind, u)
			if again, still := ebcdic.Scalar(c.kind, b); !ok || int(b) > n || again != u || !still {
				t.Errorf("kind %d: %02X is %04X, which is %02X, %v, which is %04X, %v", c.kind, n, u, b, ok, again, still)
			}
		}
		for u := rune(0); u <= 0x10FFFF; u++ {
			b, ok := ebcdic.Byte(c.kind, u)
			if !ok {
				continue
			}
			scalars++
			if back, ok := ebcdic.Scalar(c.kind, b); back != u || !ok {
				t.Errorf("kind %d: %04X is %02X, which is %04X, %v", c.kind, u, b, back, ok)
			}
		}
		if bytes != 256 || scalars != 256 {
			t.Errorf("kind %d: %d bytes and %d scalars", c.kind, bytes, scalars)
		}
	}
}
