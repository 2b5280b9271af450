package johab_test

import (
	"bytes"
	"fmt"
	"maps"
	"math"
	"math/rand/v2"
	"slices"
	"strings"
	"testing"

	"dragoman/api"
	"dragoman/johab"
)

// parts is a syllable's first, middle and last one.
type parts struct{ first, middle, last int }

// How many there are of each kind, of syllables, and of bytes that codes begin with.
const (
	firstParts  = 19
	middleParts = 21
	lastParts   = 28
	syllables   = 11172
	leads       = 76
)

// Which numbers of five bits stand for a part of each kind: said by their bits, apart from the lists.
func isFirst(n int) bool  { return n > 1 && n < 21 }
func isMiddle(n int) bool { return n > 2 && n < 30 && n&6 != 0 }
func isLast(n int) bool   { return n > 0 && n < 30 && n != 18 }

// isLead is whether a code begins with a byte, as one reckons it by hand: 1 00010 00 is 88, 1 10100 11 is D3.
func isLead(b byte) bool { return b > 0x87 && b < 0xD4 }

// counted is the parts of every code, by counting alone: codes go up in their order while last, middle and first parts do.
func counted() map[int]parts {
	m := map[int]parts{}
	at := parts{0, 0, -1}
	for code := 0x8000; code <= 0xFFFF; code++ {
		if !isFirst(code/1024%32) || !isMiddle(code/32%32) || !isLast(code%32) {
			continue
		}
		at.last++
		if at.last == lastParts {
			at.middle, at.last = at.middle+1, 0
		}
		if at.middle == middleParts {
			at.first, at.middle = at.first+1, 0
		}
		m[code] = at
	}
	return m
}

// formula is the code of three parts, as the chapter's section Words says it.
func formula(p parts) int {
	middle := []int{3, 4, 5, 6, 7, 10, 11, 12, 13, 14, 15, 18, 19, 20, 21, 22, 23, 26, 27, 28, 29}
	last := []int{1, 2, 3, 4, 5, 6, 7, 8, 9, 10, 11, 12, 13, 14, 15, 16, 17, 19, 20, 21, 22, 23, 24, 25, 26, 27, 28, 29}
	return 32768 + 1024*(p.first+2) + 32*middle[p.middle] + last[p.last]
}

// allParts is the parts of every syllable, in the order of the syllables.
func allParts() []parts {
	var l []parts
	for first := range firstParts {
		for middle := range middleParts {
			for last := range lastParts {
				l = append(l, parts{first, middle, last})
			}
		}
	}
	return l
}

// model is the encoding by the document, apart from the program: all of its units.
type model struct {
	scalars map[string]rune
	units   map[rune]string
}

func newModel() model {
	m := model{map[string]rune{}, map[rune]string{}}
	for n := range 0x80 {
		u := rune(n)
		if n == 0x5C {
			u = 0x20A9
		}
		m.add(u, byte(n))
	}
	u := rune(0xAC00)
	for _, p := range allParts() {
		code := formula(p)
		m.add(u, byte(code/256), byte(code%256))
		u++
	}
	return m
}

func (m model) add(u rune, unit ...byte) {
	m.scalars[string(unit)] = u
	m.units[u] = string(unit)
}

// wantGet is what Get answers by the document.
func (m model) wantGet(b []byte) api.Got {
	if len(b) == 0 {
		return api.Got{Err: api.More}
	}
	if u, ok := m.scalars[string(b[:1])]; ok {
		return api.Got{N: 1, K: 1, A: u}
	}
	if !isLead(b[0]) {
		return api.Got{Err: api.Illegal, N: 1}
	}
	if len(b) == 1 {
		return api.Got{Err: api.More}
	}
	if u, ok := m.scalars[string(b[:2])]; ok {
		return api.Got{N: 2, K: 1, A: u}
	}
	return api.Got{Err: api.Illegal, N: 2}
}

// wantSet is what Set answers by the document.
func (m model) wantSet(u rune) api.Put {
	if unit, ok := m.units[u]; ok {
		return api.Put{Bytes: unit}
	}
	return api.Put{Err: api.None}
}

func checkPack(t *testing.T, p parts, code int, ok bool) {
	if got, gotOK := johab.Pack(p.first, p.middle, p.last); got != code || gotOK != ok {
		t.Helper()
		t.Fatalf("Pack(%v) = %X, %v, want %X, %v", p, got, gotOK, code, ok)
	}
}

func checkUnpack(t *testing.T, code int, p parts, ok bool) {
	if a, b, c, gotOK := johab.Unpack(code); (parts{a, b, c}) != p || gotOK != ok {
		t.Helper()
		t.Fatalf("Unpack(%X) = %d, %d, %d, %v, want %v, %v", code, a, b, c, gotOK, p, ok)
	}
}

func checkGet(t *testing.T, b []byte, want api.Got) {
	if got := johab.Get(b); got != want {
		t.Helper()
		t.Fatalf("Get(% .40X) = %+v, want %+v", b, got, want)
	}
}

// told is what was put out, in words.
func told(p api.Put) string { return fmt.Sprintf("{%d, % X, %+v}", int(p.Err), p.Bytes, p.S) }

func checkSet(t *testing.T, u rune, want api.Put) {
	if got := johab.Set(u); got != want {
		t.Helper()
		t.Fatalf("Set(%X) = %s, want %s", u, told(got), told(want))
	}
}

// tails are what may follow: nothing, bytes of every sort, whole units and beginnings of them.
var tails = []string{"", "\x00", "A", "\x5C", "\x60", "\x61", "\x7F", "\x80", "\x87", "\x88", "\x88\x61", "\x88\x60", "\xA1", "\xBD", "\xD0\x65", "\xD3", "\xD3\xBD", "\xD4", "\xFF\xFF\xFF\xFF\xFF\xFF\xFF\xFF"}

// noScalars are numbers that are no scalars, at both sides of what is one, and far away.
var noScalars = []rune{
	math.MinInt32, math.MinInt32 + 1, math.MinInt32 + 'A', math.MinInt32 + 0x20A9, math.MinInt32 + 0xAC00, -0x1000000 + 'A', -0x1000000 + 0xD55C, -0x110000, -0x10FFFF, -0x10000,
	-0xD7A3, -0xAC00, -0x20A9, -0x101, -0x100, -0xFF, -0x81, -0x80, -0x7F, -0x5C, -'A', -2, -1,
	0xD800, 0xD801, 0xDBFF, 0xDC00, 0xDC41, 0xDFFE, 0xDFFF,
	0x110000, 0x110001, 0x110000 + 'A', 0x1120A9, 0x11AC00, 0x200000 + 'A', 0x1000000 + 'A', 0x10020A9, 0x100AC00, 0x40000000 + 'A', 0x4000AC00, math.MaxInt32 - 0x7F, math.MaxInt32 - 1, math.MaxInt32,
}

// farParts are numbers that are no part of any kind: far ones, and such as become a part if some bits are lost.
func farParts() []int {
	l := []int{math.MinInt, math.MinInt + 1, math.MinInt32, -65536, -256, -32, -2, 32, 256, 65536, math.MaxInt32, math.MaxInt - 1, math.MaxInt}
	for n := range 32 {
		for _, far := range []int{1 << 5, 1 << 8, 1 << 10, 1 << 16, 1 << 31, 1 << 32, 1 << 40, 1 << 58, 1 << 62, math.MinInt} {
			l = append(l, n+far, -n-far)
		}
	}
	return l
}

// TestModel: counting and the chapter's words come to one thing, and so do the bytes that codes begin with.
func TestModel(t *testing.T) {
	codes, all := counted(), allParts()
	if len(codes) != syllables || len(all) != syllables {
		t.Fatalf("%d codes of %d syllables", len(codes), len(all))
	}
	for _, p := range all {
		if codes[formula(p)] != p {
			t.Fatalf("%v is %X by words, which is %v by counting", p, formula(p), codes[formula(p)])
		}
	}
	begun := map[byte]int{}
	for code := range codes {
		begun[byte(code/256)]++
	}
	for n := range 256 {
		if isLead(byte(n)) != (begun[byte(n)] > 0) {
			t.Errorf("%d codes begin with %X", begun[byte(n)], n)
		}
	}
	if m := newModel(); len(begun) != leads || len(m.scalars) != 128+syllables || len(m.units) != 128+syllables {
		t.Errorf("%d first bytes, %d units of %d scalars", len(begun), len(m.scalars), len(m.units))
	}
}

// TestExamples: the chapter's, and the one of the whole.
func TestExamples(t *testing.T) {
	checkPack(t, parts{0, 0, 0}, 0x8861, true)
	checkUnpack(t, 0x8861, parts{0, 0, 0}, true)
	checkSet(t, 0xAC00, api.Put{Bytes: "\x88\x61"})
	checkSet(t, 0xD7A3, api.Put{Bytes: "\xD3\xBD"})
	checkSet(t, 0xD55C, api.Put{Bytes: "\xD0\x65"})
	checkGet(t, []byte("\x88\x61"), api.Got{N: 2, K: 1, A: 0xAC00})
	checkGet(t, []byte("\xD3\xBD"), api.Got{N: 2, K: 1, A: 0xD7A3})
	checkGet(t, []byte("\xD0\x65"), api.Got{N: 2, K: 1, A: 0xD55C})
	checkGet(t, []byte("\x88"), api.Got{Err: api.More})
	checkGet(t, []byte("\x88\x60"), api.Got{Err: api.Illegal, N: 2})
	checkGet(t, []byte("\x80"), api.Got{Err: api.Illegal, N: 1})
	checkGet(t, []byte("\xD4"), api.Got{Err: api.Illegal, N: 1})
}

// Promise 19.1: parts and codes.

// TestCodesByEye: both ways, at the ends of parts and where their numbers leave some out.
func TestCodesByEye(t *testing.T) {
	for p, code := range map[parts]int{
		{0, 0, 0}: 0x8861, {0, 0, 1}: 0x8862, {0, 0, 16}: 0x8871, {0, 0, 17}: 0x8873, {0, 0, 26}: 0x887C, {0, 0, 27}: 0x887D,
		{0, 1, 0}: 0x8881, {0, 4, 0}: 0x88E1, {0, 4, 27}: 0x88FD, {0, 5, 0}: 0x8941, {0, 10, 0}: 0x89E1, {0, 11, 0}: 0x8A41, {0, 16, 0}: 0x8AE1, {0, 17, 0}: 0x8B41, {0, 20, 0}: 0x8BA1, {0, 20, 27}: 0x8BBD,
		{1, 0, 0}: 0x8C61, {2, 0, 0}: 0x9061, {9, 10, 14}: 0xADEF, {17, 20, 27}: 0xCFBD, {18, 0, 0}: 0xD061, {18, 0, 4}: 0xD065, {18, 20, 0}: 0xD3A1, {18, 20, 27}: 0xD3BD,
	} {
		checkPack(t, p, code, true)
		checkUnpack(t, code, p, true)
	}
}

// TestPackEvery: all parts.
func TestPackEvery(t *testing.T) {
	for _, p := range allParts() {
		checkPack(t, p, formula(p), true)
	}
	for code, p := range counted() {
		checkPack(t, p, code, true)
	}
}

// TestPackAround: all triples of numbers around the parts, so that no part's place is taken by another, and none makes up for another.
func TestPackAround(t *testing.T) {
	for first := -40; first <= 70; first++ {
		for middle := -40; middle <= 70; middle++ {
			for last := -40; last <= 70; last++ {
				p := parts{first, middle, last}
				if 0 <= first && first < firstParts && 0 <= middle && middle < middleParts && 0 <= last && last < lastParts {
					checkPack(t, p, formula(p), true)
				} else {
					checkPack(t, p, 0, false)
				}
			}
		}
	}
}

// TestPackBeside: parts just outside, one alone beside every right choice of the others, and several at once.
func TestPackBeside(t *testing.T) {
	firsts, middles, lasts := []int{-1, 19, 20, 27, 28}, []int{-1, 21, 22, 27, 28}, []int{-1, 28, 29}
	for _, p := range allParts() {
		for _, first := range firsts {
			checkPack(t, parts{first, p.middle, p.last}, 0, false)
		}
		for _, middle := range middles {
			checkPack(t, parts{p.first, middle, p.last}, 0, false)
		}
		for _, last := range lasts {
			checkPack(t, parts{p.first, p.middle, last}, 0, false)
		}
	}
	for _, first := range firsts {
		for _, middle := range middles {
			for _, last := range lasts {
				checkPack(t, parts{first, middle, last}, 0, false)
				checkPack(t, parts{first, middle, 0}, 0, false)
				checkPack(t, parts{first, 0, last}, 0, false)
				checkPack(t, parts{0, middle, last}, 0, false)
			}
		}
	}
}

// TestPackFar: parts far outside, one, two or all of them.
func TestPackFar(t *testing.T) {
	for _, far := range farParts() {
		for _, p := range []parts{{0, 0, 0}, {1, 1, 1}, {9, 10, 14}, {18, 20, 27}} {
			checkPack(t, parts{far, p.middle, p.last}, 0, false)
			checkPack(t, parts{p.first, far, p.last}, 0, false)
			checkPack(t, parts{p.first, p.middle, far}, 0, false)
			checkPack(t, parts{p.first, far, far}, 0, false)
			checkPack(t, parts{far, p.middle, far}, 0, false)
			checkPack(t, parts{far, far, p.last}, 0, false)
		}
		checkPack(t, parts{far, far, far}, 0, false)
		checkPack(t, parts{far, -far, far}, 0, false)
		checkPack(t, parts{-far, far, -1}, 0, false)
	}
}

// TestUnpackEvery: all numbers of 16 bits, and many on either side.
func TestUnpackEvery(t *testing.T) {
	codes := counted()
	n := 0
	for code := -0x21000; code < 0x41000; code++ {
		p, ok := codes[code]
		checkUnpack(t, code, p, ok)
		if _, _, _, ok := johab.Unpack(code); ok {
			n++
		}
	}
	if n != syllables {
		t.Errorf("%d numbers are codes", n)
	}
}

// TestUnpackFives: fives of bits that stand for no part, of each place, beside all that stand for one in the others.
func TestUnpackFives(t *testing.T) {
	first := []int{0, 1, 21, 22, 23, 24, 25, 26, 27, 28, 29, 30, 31}
	middle := []int{0, 1, 2, 8, 9, 16, 17, 24, 25, 30, 31}
	last := []int{0, 18, 30, 31}
	for n := range 32 {
		if isFirst(n) == slices.Contains(first, n) || isMiddle(n) == slices.Contains(middle, n) || isLast(n) == slices.Contains(last, n) {
			t.Errorf("%d: a first, middle, last part: %v, %v, %v", n, isFirst(n), isMiddle(n), isLast(n))
		}
	}
	for _, p := range allParts() {
		code := formula(p)
		for _, n := range first {
			checkUnpack(t, code&^(31<<10)|n<<10, parts{}, false)
		}
		for _, n := range middle {
			checkUnpack(t, code&^(31<<5)|n<<5, parts{}, false)
		}
		for _, n := range last {
			checkUnpack(t, code&^31|n, parts{}, false)
		}
	}
}

// TestUnpackFar: numbers that a code could be taken for, if some of their bits were lost, and far ones.
func TestUnpackFar(t *testing.T) {
	for code := range counted() {
		checkUnpack(t, code-0x8000, parts{}, false)
		checkUnpack(t, -code, parts{}, false)
		checkUnpack(t, ^code, parts{}, false)
		checkUnpack(t, code-0x10000, parts{}, false)
		for bit := 16; bit < 64; bit++ {
			checkUnpack(t, code|1<<bit, parts{}, false)
			checkUnpack(t, -1<<bit|code, parts{}, false)
		}
	}
	for _, code := range []int{math.MinInt, math.MinInt + 1, math.MinInt32, -0x8861, -1, 0, 1, 0x7FFF, 0x8000, 0x8860, 0xD3BE, 0xFFFF, 0x10000, math.MaxInt32, math.MaxInt - 1, math.MaxInt} {
		checkUnpack(t, code, parts{}, false)
	}
}

// Promise 19.2: what is got.

// TestGetNothing: of no bytes there are more to come.
func TestGetNothing(t *testing.T) {
	checkGet(t, nil, api.Got{Err: api.More})
	checkGet(t, []byte{}, api.Got{Err: api.More})
	// What lies behind a list's end is none of it.
	checkGet(t, []byte("A\x88\x61")[:0], api.Got{Err: api.More})
}

// TestGetAlone: every byte alone, with the answers written out.
func TestGetAlone(t *testing.T) {
	for n := range 256 {
		want := api.Got{Err: api.Illegal, N: 1}
		switch {
		case n == 0x5C:
			want = api.Got{N: 1, K: 1, A: 0x20A9}
		case n <= 0x7F:
			want = api.Got{N: 1, K: 1, A: rune(n)}
		case n >= 0x88 && n <= 0xD3:
			want = api.Got{Err: api.More}
		}
		checkGet(t, []byte{byte(n)}, want)
		// What lies behind a list's end is none of it.
		checkGet(t, []byte{byte(n), 0x61, 0x61}[:1], want)
	}
}

// TestGetPairs: every first byte with every second byte, and whatever follows.
func TestGetPairs(t *testing.T) {
	m := newModel()
	for n := range 1 << 16 {
		for _, tail := range tails {
			b := append([]byte{byte(n >> 8), byte(n)}, tail...)
			checkGet(t, b, m.wantGet(b))
		}
	}
}

// TestGetCounts: how many of all pairs come to what, as one reckons it from the chapter.
func TestGetCounts(t *testing.T) {
	type sort struct {
		err  api.Errno
		n, k int
	}
	want := map[sort]int{
		{api.OK, 1, 1}:      128 * 256,
		{api.OK, 2, 1}:      syllables,
		{api.Illegal, 2, 0}: leads*256 - syllables,
		{api.Illegal, 1, 0}: (128 - leads) * 256,
	}
	got := map[sort]int{}
	for n := range 1 << 16 {
		g := johab.Get([]byte{byte(n >> 8), byte(n)})
		got[sort{g.Err, g.N, g.K}]++
	}
	if !maps.Equal(got, want) {
		t.Errorf("%v, want %v", got, want)
	}
}

// TestUnits: units that are known by eye, both ways; second bytes that stand for themselves elsewhere are among them.
func TestUnits(t *testing.T) {
	for unit, u := range map[string]rune{
		"\x00": 0, "\x1F": 0x1F, " ": ' ', "A": 'A', "\x5B": 0x5B, "\x5C": 0x20A9, "\x5D": 0x5D, "\x7E": 0x7E, "\x7F": 0x7F,
		"\x88\x61": 0xAC00, "\x88\x62": 0xAC01, "\x88\x71": 0xAC10, "\x88\x73": 0xAC11, "\x88\x7D": 0xAC1B, "\x88\x81": 0xAC1C, "\x88\x82": 0xAC1D, "\x89\x41": 0xAC8C, "\x89\x5C": 0xACA6,
		"\x8A\x41": 0xAD34, "\x8B\x41": 0xADDC, "\x8B\x69": 0xAE00, "\x8B\xBD": 0xAE4B, "\x8C\x61": 0xAE4C, "\x90\x61": 0xB098, "\xCF\xBD": 0xD557, "\xD0\x61": 0xD558, "\xD0\x65": 0xD55C, "\xD3\xA1": 0xD788, "\xD3\xBC": 0xD7A2, "\xD3\xBD": 0xD7A3,
	} {
		checkGet(t, []byte(unit), api.Got{N: len(unit), K: 1, A: u})
		checkSet(t, u, api.Put{Bytes: unit})
	}
}

// TestGetWrong: the edges of what is illegal, and how much of it is passed over.
func TestGetWrong(t *testing.T) {
	for _, a := range []byte{0x80, 0x81, 0x84, 0x86, 0x87, 0xD4, 0xD5, 0xD8, 0xDA, 0xE0, 0xF9, 0xFC, 0xFE, 0xFF} {
		checkGet(t, []byte{a}, api.Got{Err: api.Illegal, N: 1})
		for n := range 256 {
			checkGet(t, []byte{a, byte(n)}, api.Got{Err: api.Illegal, N: 1})
			checkGet(t, []byte{a, byte(n), 0x61}, api.Got{Err: api.Illegal, N: 1})
		}
	}
	// The middle part's lowest bits and the last part are wrong, alone and together; what is behind is passed over even where it could stand alone.
	for _, pair := range []string{
		"\x88\x41", "\x88\x60", "\x88\x72", "\x88\x7E", "\x88\x7F", "\x88\x00", "\x88\x5C", "\x88A", "\x88\x20", "\x88\x80", "\x88\xFE", "\x88\xFF",
		"\x89\x01", "\x89\x21", "\x89\x40", "\x8A\x21", "\x8B\x21", "\x8B\xC1", "\x8B\xE1", "\xD0\x41", "\xD3\x21", "\xD3\xB2", "\xD3\xBE", "\xD3\xBF", "\xD3\xC1", "\xD3\xFF", "\xD3\xD0",
	} {
		for _, tail := range tails {
			checkGet(t, []byte(pair+tail), api.Got{Err: api.Illegal, N: 2})
		}
	}
}

// TestLong is rule R6: bytes beyond every limit are read from the front alike.
func TestLong(t *testing.T) {
	b := []byte(strings.Repeat("\x88\x61", 1+api.MaxIn/2))
	checkGet(t, b, api.Got{N: 2, K: 1, A: 0xAC00})
	b[0] = 'A'
	checkGet(t, b, api.Got{N: 1, K: 1, A: 'A'})
	b[0] = 0xFF
	checkGet(t, b, api.Got{Err: api.Illegal, N: 1})
	b[0], b[1] = 0xD3, 0xBE
	checkGet(t, b, api.Got{Err: api.Illegal, N: 2})
}

// TestMemory is rule R4: what is handed in stays, also in the room behind a list's end.
func TestMemory(t *testing.T) {
	whole := []byte("A\x88\x61\x5C\x88\x60\x80\xD4\xFF\xD0\x65\xD3\xBD\x88")
	kept := bytes.Clone(whole)
	for n := range len(whole) + 1 {
		for from := range n + 1 {
			johab.Get(whole[from:n])
		}
	}
	if !bytes.Equal(whole, kept) {
		t.Errorf("% X are % X afterwards", kept, whole)
	}
}

// Promise 19.2: what is set.

// TestSetEvery: every scalar, and the numbers around them.
func TestSetEvery(t *testing.T) {
	m := newModel()
	for u := rune(-0x11000); u < 0x121000; u++ {
		checkSet(t, u, m.wantSet(u))
	}
	for bit := range 32 {
		for d := range uint32(5) {
			u := rune(uint32(1)<<bit + d - 2)
			checkSet(t, u, m.wantSet(u))
		}
	}
	// Numbers that a scalar could be taken for, if some of their bits were lost.
	for u := range m.units {
		for _, v := range []rune{-u, ^u, u - 0x100, u + 0x100, u - 0x10000, u + 0x10000, u + 0x110000, u + 0x1000000, u + 0x40000000, math.MinInt32 + u} {
			checkSet(t, v, m.wantSet(v))
		}
	}
}

// TestSetNone: what has no place, Hangul parts among it, and what is no scalar.
func TestSetNone(t *testing.T) {
	some := []rune{
		0x5C, 0x80, 0x81, 0x88, 0xA0, 0xA5, 0xFF, 0x0100, 0x203E, 0x20A8, 0x20AA, 0x20AC, 0x3000, 0x3042, 0x4F3D, 0x8861,
		0x1100, 0x1112, 0x1161, 0x1175, 0x11A8, 0x11C2, 0x11FF, 0x3131, 0x3132, 0x314F, 0x3163, 0x3164, 0x318E, 0xA960, 0xA97C, 0xD7B0, 0xD7C6, 0xD7CB, 0xD7FB, 0xD7FF, 0xFFA1, 0xFFDC,
		0xABFE, 0xABFF, 0xD7A4, 0xD7A5, 0xE000, 0xF900, 0xFF3C, 0xFFE6, 0xFFFD, 0xFFFE, 0xFFFF, 0x10000, 0x1005C, 0x120A9, 0x1AC00, 0x1D55C, 0x1F600, 0x10AC00, 0x10FFFD, 0x10FFFF,
	}
	for _, u := range append(some, noScalars...) {
		checkSet(t, u, api.Put{Err: api.None})
	}
}

// TestSetAlone: what one byte stands for is that byte.
func TestSetAlone(t *testing.T) {
	for u := rune(0); u < 0x80; u++ {
		want := api.Put{Bytes: string([]byte{byte(u)})}
		if u == 0x5C {
			want = api.Put{Err: api.None}
		}
		checkSet(t, u, want)
	}
	checkSet(t, 0x20A9, api.Put{Bytes: "\x5C"})
}

// Promise 19.3, and the state.

// TestPackUndone: all parts are those again of which the code was made, and no two have the same code.
func TestPackUndone(t *testing.T) {
	seen := map[int]parts{}
	for _, p := range allParts() {
		code, ok := johab.Pack(p.first, p.middle, p.last)
		if !ok {
			t.Fatalf("Pack(%v) = %X, %v", p, code, ok)
		}
		if other, ok := seen[code]; ok {
			t.Fatalf("%X is %v and %v", code, p, other)
		}
		seen[code] = p
		checkUnpack(t, code, p, true)
	}
	if len(seen) != syllables {
		t.Errorf("%d codes", len(seen))
	}
}

// TestUnpackUndone: all codes are those again of which the parts were made.
func TestUnpackUndone(t *testing.T) {
	n := 0
	for code := -0x21000; code < 0x41000; code++ {
		a, b, c, ok := johab.Unpack(code)
		if ok {
			n++
			checkPack(t, parts{a, b, c}, code, true)
		}
	}
	if n != syllables {
		t.Errorf("%d codes", n)
	}
}

// TestDifferent: all syllables have different bytes, two of each, and none that other scalars have.
func TestDifferent(t *testing.T) {
	seen := map[string]rune{}
	for u := rune(0xAC00); u <= 0xD7A3; u++ {
		p := johab.Set(u)
		if p.Err != api.OK || len(p.Bytes) != 2 {
			t.Fatalf("Set(%X) = %s", u, told(p))
		}
		if other, ok := seen[p.Bytes]; ok {
			t.Fatalf("% X is %X and %X", p.Bytes, u, other)
		}
		seen[p.Bytes] = u
	}
	if len(seen) != syllables {
		t.Errorf("%d syllables", len(seen))
	}
}

// TestGetOfSet: for every scalar that has a place, whatever follows.
func TestGetOfSet(t *testing.T) {
	n := 0
	for u := rune(0); u <= 0x10FFFF; u++ {
		p := johab.Set(u)
		if p.Err == api.None {
			continue
		}
		n++
		want := api.Got{N: len(p.Bytes), K: 1, A: u}
		for _, tail := range tails {
			checkGet(t, []byte(p.Bytes+tail), want)
		}
		for c := range 256 {
			checkGet(t, append([]byte(p.Bytes), byte(c)), want)
		}
	}
	if n != 128+syllables {
		t.Errorf("%d scalars have a place, want %d", n, 128+syllables)
	}
}

// TestSetOfGet: what is got of bytes is written as those that were taken.
func TestSetOfGet(t *testing.T) {
	n := 0
	for i := range 1 << 16 {
		b := []byte{byte(i >> 8), byte(i)}
		if g := johab.Get(b); g.Err == api.OK {
			n++
			checkSet(t, g.A, api.Put{Bytes: string(b[:g.N])})
		}
	}
	if n != 128*256+syllables {
		t.Errorf("%d pairs begin with a unit", n)
	}
}

// TestState: it is always the zero one, with errors and without.
func TestState(t *testing.T) {
	for n := range 1 << 16 {
		for _, b := range [][]byte{{byte(n >> 8), byte(n)}, {byte(n)}, nil} {
			if g := johab.Get(b); g.S != (api.State{}) || g.B != 0 {
				t.Fatalf("Get(% X) = %+v", b, g)
			}
		}
		if p := johab.Set(rune(n)); p.S != (api.State{}) {
			t.Fatalf("Set(%X) = %s", n, told(p))
		}
	}
}

// TestRows is promise 19.3: scalars that are written one behind the other are read as these, to the last byte.
func TestRows(t *testing.T) {
	r := rand.New(rand.NewPCG(19, 3))
	all := slices.Sorted(maps.Keys(newModel().units))
	for range 5000 {
		var b []byte
		var want, got []rune
		for range r.IntN(12) {
			u := all[r.IntN(len(all))]
			b, want = append(b, johab.Set(u).Bytes...), append(want, u)
		}
		for whole := b; len(b) > 0; {
			g := johab.Get(b)
			if g.Err != api.OK {
				t.Fatalf("Get of % X, of % X = %+v", b, whole, g)
			}
			b, got = b[g.N:], append(got, g.A)
		}
		if !slices.Equal(got, want) {
			t.Errorf("%X are read as %X", want, got)
		}
	}
}

// TestAnyBytes is promise 19.2: any bytes, none taken beyond two or beyond the end.
func TestAnyBytes(t *testing.T) {
	r := rand.New(rand.NewPCG(19, 2))
	m := newModel()
	for range 200000 {
		b := make([]byte, r.IntN(6))
		for i := range b {
			b[i] = byte(r.Uint32())
		}
		g := johab.Get(b)
		if want := m.wantGet(b); g != want {
			t.Fatalf("Get(% X) = %+v, want %+v", b, g, want)
		}
		if g.N < 0 || g.N > 2 || g.N > len(b) || (g.Err == api.More) != (g.N == 0) {
			t.Errorf("Get(% X) takes %d", b, g.N)
		}
	}
}
