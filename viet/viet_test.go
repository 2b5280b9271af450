package viet_test

import (
	"fmt"
	"math"
	"math/rand/v2"
	"slices"
	"strconv"
	"strings"
	"testing"

	"dragoman/api"
	"dragoman/viet"
)

// chapterList is the document's list, letter by letter.
const chapterList = "20AC ---- 201A 0192 201E 2026 2020 2021 02C6 2030 ---- 2039 0152 ----*4 2018 2019 201C 201D 2022 2013 2014 02DC 2122 ---- 203A 0153 ----*2 0178 00A0-00C2 0102 00C4-00CB 0300 00CD-00CF 0110 00D1 0309 00D3 00D4 01A0 00D6-00DC 01AF 0303 00DF-00E2 0103 00E4-00EB 0301 00ED-00EF 0111 00F1 0323 00F3 00F4 01A1 00F6-00FC 01B0 20AB 00FF"

// chapterRows is the document's results, letter by letter.
var chapterRows = []struct {
	mark rune
	row  string
}{
	{0x0300, "0041=00C0 0045=00C8 0049=00CC 004F=00D2 0055=00D9 0059=1EF2 0061=00E0 0065=00E8 0069=00EC 006F=00F2 0075=00F9 0079=1EF3 00C2=1EA6 00CA=1EC0 00D4=1ED2 00E2=1EA7 00EA=1EC1 00F4=1ED3 0102=1EB0 0103=1EB1 01A0=1EDC 01A1=1EDD 01AF=1EEA 01B0=1EEB"},
	{0x0309, "0041=1EA2 0045=1EBA 0049=1EC8 004F=1ECE 0055=1EE6 0059=1EF6 0061=1EA3 0065=1EBB 0069=1EC9 006F=1ECF 0075=1EE7 0079=1EF7 00C2=1EA8 00CA=1EC2 00D4=1ED4 00E2=1EA9 00EA=1EC3 00F4=1ED5 0102=1EB2 0103=1EB3 01A0=1EDE 01A1=1EDF 01AF=1EEC 01B0=1EED"},
	{0x0303, "0041=00C3 0045=1EBC 0049=0128 004F=00D5 0055=0168 0059=1EF8 0061=00E3 0065=1EBD 0069=0129 006F=00F5 0075=0169 0079=1EF9 00C2=1EAA 00CA=1EC4 00D4=1ED6 00E2=1EAB 00EA=1EC5 00F4=1ED7 0102=1EB4 0103=1EB5 01A0=1EE0 01A1=1EE1 01AF=1EEE 01B0=1EEF"},
	{0x0301, "0041=00C1 0045=00C9 0049=00CD 004F=00D3 0055=00DA 0059=00DD 0061=00E1 0065=00E9 0069=00ED 006F=00F3 0075=00FA 0079=00FD 00C2=1EA4 00CA=1EBE 00D4=1ED0 00E2=1EA5 00EA=1EBF 00F4=1ED1 0102=1EAE 0103=1EAF 01A0=1EDA 01A1=1EDB 01AF=1EE8 01B0=1EE9"},
	{0x0323, "0041=1EA0 0045=1EB8 0049=1ECA 004F=1ECC 0055=1EE4 0059=1EF4 0061=1EA1 0065=1EB9 0069=1ECB 006F=1ECD 0075=1EE5 0079=1EF5 00C2=1EAC 00CA=1EC6 00D4=1ED8 00E2=1EAD 00EA=1EC7 00F4=1ED9 0102=1EB6 0103=1EB7 01A0=1EE2 01A1=1EE3 01AF=1EF0 01B0=1EF1"},
}

const nothing = -1 // what read says of a byte that stands for nothing

// read is the scalars that a list of the document says, one by one.
func read(list string) ([]rune, error) {
	var l []rune
	for _, word := range strings.Fields(list) {
		more, err := readWord(word)
		if err != nil {
			return nil, fmt.Errorf("%s: %w", word, err)
		}
		l = append(l, more...)
	}
	return l, nil
}

func readWord(word string) ([]rune, error) {
	if word == "----" {
		return []rune{nothing}, nil
	}
	if n, ok := strings.CutPrefix(word, "----*"); ok {
		times, err := strconv.Atoi(n)
		if err != nil || times < 1 {
			return nil, fmt.Errorf("%d times: %v", times, err)
		}
		return slices.Repeat([]rune{nothing}, times), nil
	}
	from, to, ok := strings.Cut(word, "-")
	if !ok {
		to = from
	}
	a, err := readNumber(from)
	if err != nil {
		return nil, err
	}
	b, err := readNumber(to)
	if err != nil {
		return nil, err
	}
	var l []rune
	for u := a; u <= b; u++ {
		l = append(l, u)
	}
	return l, nil
}

func readNumber(digits string) (rune, error) {
	n, err := strconv.ParseUint(digits, 16, 31)
	return rune(n), err
}

// readRow is the letters of a row, and their results.
func readRow(row string) (letters, results []rune, err error) {
	for _, word := range strings.Fields(row) {
		from, to, _ := strings.Cut(word, "=")
		letter, err := readNumber(from)
		if err != nil {
			return nil, nil, fmt.Errorf("%s: %w", word, err)
		}
		result, err := readNumber(to)
		if err != nil {
			return nil, nil, fmt.Errorf("%s: %w", word, err)
		}
		letters = append(letters, letter)
		results = append(results, result)
	}
	return letters, results, nil
}

// couple is a letter and a mark.
type couple struct{ letter, mark rune }

// model is windows-1258 by the document's lists, apart from the program.
type model struct {
	scalars []rune          // of all bytes
	bytes   map[rune]byte   // the least of each scalar
	makes   map[couple]rune // what letters and marks make
	madeOf  map[rune]couple
	held    []rune // the letters that may be held, from the least on
	marks   []rune
}

func newModel(t *testing.T) *model {
	t.Helper()
	m := &model{bytes: map[rune]byte{}, makes: map[couple]rune{}, madeOf: map[rune]couple{}}
	for u := rune(0); u < 0x80; u++ {
		m.scalars = append(m.scalars, u)
	}
	l, err := read(chapterList)
	if err != nil || len(l) != 128 {
		t.Fatalf("a list of %d, %v", len(l), err)
	}
	m.scalars = append(m.scalars, l...)
	for b := 255; b >= 0; b-- {
		if u := m.scalars[b]; u != nothing {
			m.bytes[u] = byte(b)
		}
	}
	for _, c := range chapterRows {
		letters, results, err := readRow(c.row)
		if err != nil || len(letters) == 0 {
			t.Fatalf("U+%04X: a row of %d, %v", c.mark, len(letters), err)
		}
		m.marks = append(m.marks, c.mark)
		for i, letter := range letters {
			m.makes[couple{letter, c.mark}] = results[i]
			m.madeOf[results[i]] = couple{letter, c.mark}
			m.held = append(m.held, letter)
		}
	}
	slices.Sort(m.held)
	m.held = slices.Compact(m.held)
	return m
}

func (m *model) mayBeHeld(u rune) bool { return slices.Contains(m.held, u) }

// fits: all fields but Held are zero, and Held is zero or a letter that may be held.
func (m *model) fits(s api.State) bool {
	return s.Mode == 0 && s.Bits == 0 && s.Acc == 0 && (s.Held == 0 || m.mayBeHeld(s.Held))
}

// get is what Get answers by the document.
func (m *model) get(s api.State, b []byte) api.Got {
	if !m.fits(s) {
		return api.Got{Err: api.ErrState}
	}
	if len(b) == 0 {
		return api.Got{Err: api.More}
	}
	c := m.scalars[b[0]]
	if c == nothing {
		return api.Got{Err: api.Illegal, N: 1, S: s}
	}
	result, makes := m.makes[couple{s.Held, c}]
	switch {
	case s.Held != 0 && makes:
		return api.Got{N: 1, K: 1, A: result}
	case s.Held != 0 && m.mayBeHeld(c):
		return api.Got{N: 1, K: 1, A: s.Held, S: api.State{Held: c}}
	case s.Held != 0:
		return api.Got{N: 1, K: 2, A: s.Held, B: c}
	case m.mayBeHeld(c):
		return api.Got{N: 1, S: api.State{Held: c}}
	}
	return api.Got{N: 1, K: 1, A: c}
}

// set is what Set answers by the document.
func (m *model) set(u rune) api.Put {
	if b, ok := m.bytes[u]; ok {
		return api.Put{Bytes: string([]byte{b})}
	}
	if c, ok := m.madeOf[u]; ok {
		return api.Put{Bytes: string([]byte{m.bytes[c.letter], m.bytes[c.mark]})}
	}
	return api.Put{Err: api.None}
}

// written is all scalars that have bytes, from the least on.
func (m *model) written() []rune {
	var l []rune
	for u := range m.bytes {
		l = append(l, u)
	}
	for u := range m.madeOf {
		if _, ok := m.bytes[u]; !ok {
			l = append(l, u)
		}
	}
	slices.Sort(l)
	return l
}

// states are all that windows-1258 has.
func (m *model) states() []api.State {
	l := []api.State{{}}
	for _, letter := range m.held {
		l = append(l, api.State{Held: letter})
	}
	return l
}

// wrongStates are some that are none: with each field that may not be what it is, alone and with others.
func (m *model) wrongStates() []api.State {
	var l []api.State
	for _, s := range m.states() {
		l = append(l,
			api.State{Mode: 1, Held: s.Held}, api.State{Mode: 2, Held: s.Held}, api.State{Mode: -1, Held: s.Held}, api.State{Mode: math.MinInt, Held: s.Held}, api.State{Mode: math.MaxInt, Held: s.Held},
			api.State{Bits: 1, Held: s.Held}, api.State{Bits: 8, Held: s.Held}, api.State{Bits: -1, Held: s.Held}, api.State{Bits: math.MinInt, Held: s.Held}, api.State{Bits: math.MaxInt, Held: s.Held},
			api.State{Acc: 1, Held: s.Held}, api.State{Acc: 'A', Held: s.Held}, api.State{Acc: 1 << 31, Held: s.Held}, api.State{Acc: math.MaxUint32, Held: s.Held},
			api.State{Mode: 1, Bits: 1, Held: s.Held}, api.State{Mode: 1, Bits: -1, Held: s.Held}, api.State{Mode: 1, Bits: 1, Acc: 1, Held: s.Held},
		)
	}
	for _, u := range slices.Concat(noScalars, m.marks, []rune{1, 'B', 'Z', 'b', 'z', 0x40, 0x5B, 0xA0, 0xC0, 0xC1, 0xC3, 0xFF, 0x0110, 0x0178, 0x1EA0, 0x1EA4, 0x1EF9, 0x20AB, 0x20AC, 0x4E00, 0xFFFD, 0x10FFFF}) {
		l = append(l, api.State{Held: u}, api.State{Mode: 1, Held: u}, api.State{Bits: 1, Held: u}, api.State{Acc: 1, Held: u})
	}
	return l
}

// noScalars are numbers that are no scalars, at both sides of what is one, and far away.
var noScalars = []rune{
	math.MinInt32, math.MinInt32 + 1, math.MinInt32 + 'A', math.MinInt32 + 0xC2, math.MinInt32 + 0x0300, math.MinInt32 + 0x1EA4, -0x1000000 + 'A', -0x110000, -0x10FFFF, -0x10000, -0xFFFD,
	-0x20AC, -0x1EA4, -0x0300, -257, -256, -255, -0xC2, -0xA0, -0x81, -0x80, -0x7F, -'A', -2, -1,
	0xD800, 0xD801, 0xDBFF, 0xDC00, 0xDFFE, 0xDFFF,
	0x110000, 0x110001, 0x110000 + 'A', 0x110080, 0x110300, 0x111EA4, 0x200000 + 'A', 0x1000000 + 'A', 0x1000300, 0x1001EA4, 0x40000000 + 'A', math.MaxInt32 - 0x7F, math.MaxInt32 - 1, math.MaxInt32,
}

// The numbers that the tests go through one by one: all scalars, and many at both sides of them.
const (
	fromNumber rune = -0x11000
	toNumber   rune = 0x120FFF
)

func (m *model) checkCompose(t *testing.T, letter, mark rune) {
	want, wantOK := m.makes[couple{letter, mark}]
	if u, ok := viet.Compose(letter, mark); u != want || ok != wantOK {
		t.Helper()
		t.Fatalf("Compose(%04X, %04X) = %04X, %v, want %04X, %v", letter, mark, u, ok, want, wantOK)
	}
}

func (m *model) checkSplit(t *testing.T, u rune) {
	want, wantOK := m.madeOf[u]
	if letter, mark, ok := viet.Split(u); letter != want.letter || mark != want.mark || ok != wantOK {
		t.Helper()
		t.Fatalf("Split(%04X) = %04X, %04X, %v, want %04X, %04X, %v", u, letter, mark, ok, want.letter, want.mark, wantOK)
	}
}

func (m *model) checkFits(t *testing.T, s api.State) {
	if got, want := viet.Fits(s), m.fits(s); got != want {
		t.Helper()
		t.Fatalf("Fits(%+v) = %v", s, got)
	}
}

func (m *model) checkDrain(t *testing.T, s api.State) {
	var want rune
	if m.fits(s) {
		want = s.Held
	}
	if u, ok := viet.Drain(s); u != want || ok != (want != 0) {
		t.Helper()
		t.Fatalf("Drain(%+v) = %04X, %v, want %04X", s, u, ok, want)
	}
}

func (m *model) checkSet(t *testing.T, u rune) {
	if got, want := viet.Set(u), m.set(u); got != want {
		t.Helper()
		t.Fatalf("Set(%04X) = %s, want %s", u, told(got), told(want))
	}
}

func checkGet(t *testing.T, s api.State, b []byte, want api.Got) {
	if got := viet.Get(s, b); got != want {
		t.Helper()
		t.Fatalf("Get(%+v, % .40X) = %+v, want %+v", s, b, got, want)
	}
}

// told is what was put out, in words.
func told(p api.Put) string { return fmt.Sprintf("{%d, % X, %+v}", int(p.Err), p.Bytes, p.S) }

// holding is the state in which a letter is held.
func holding(letter rune) api.State { return api.State{Held: letter} }

// TestExamples: the chapter's.
func TestExamples(t *testing.T) {
	b := []byte("\x41\xCC\x42")
	checkGet(t, api.State{}, b, api.Got{N: 1, S: holding('A')})
	checkGet(t, holding('A'), b[1:], api.Got{N: 1, K: 1, A: 0xC0})
	checkGet(t, api.State{}, b[2:], api.Got{N: 1, K: 1, A: 'B'})
	checkGet(t, holding('A'), []byte("\x42"), api.Got{N: 1, K: 2, A: 'A', B: 'B'})
	checkGet(t, holding('E'), []byte("\x41"), api.Got{N: 1, K: 1, A: 'E', S: holding('A')})
	for _, c := range []struct {
		u    rune
		want api.Put
	}{
		{0x1EA4, api.Put{Bytes: "\xC2\xEC"}},
		{0xC0, api.Put{Bytes: "\xC0"}},
		{0x4E00, api.Put{Err: api.None}},
	} {
		if p := viet.Set(c.u); p != c.want {
			t.Errorf("Set(%04X) = %s, want %s", c.u, told(p), told(c.want))
		}
	}
}

// TestRead: what the program is held against is read as the chapters say.
func TestRead(t *testing.T) {
	for _, c := range []struct {
		list string
		want []rune
	}{
		{"00A0 20AC", []rune{0xA0, 0x20AC}},
		{"00A6-00A9", []rune{0xA6, 0xA7, 0xA8, 0xA9}},
		{"00A0 ----*3 00A4 ----", []rune{0xA0, nothing, nothing, nothing, 0xA4, nothing}},
	} {
		if l, err := read(c.list); err != nil || !slices.Equal(l, c.want) {
			t.Errorf("%s: %X, %v", c.list, l, err)
		}
	}
	for _, list := range []string{"00A0 x", "----*", "----*0", "00A0-", "-00A0"} {
		if l, err := read(list); err == nil {
			t.Errorf("%s: %X", list, l)
		}
	}
	letters, results, err := readRow("0041=00C0 0059=1EF2")
	if err != nil || !slices.Equal(letters, []rune{0x41, 0x59}) || !slices.Equal(results, []rune{0xC0, 0x1EF2}) {
		t.Errorf("a row: %X, %X, %v", letters, results, err)
	}
	for _, row := range []string{"0041", "=00C0", "0041=", "0041=00C0=00C1", "0041-00C0", "x=y"} {
		if letters, results, err := readRow(row); err == nil {
			t.Errorf("%s: %X, %X", row, letters, results)
		}
	}
}

// TestModel: how many things the chapter says, and what holds of all of them.
func TestModel(t *testing.T) {
	m := newModel(t)
	if len(m.scalars) != 256 || len(m.bytes) != 247 || len(m.makes) != 120 || len(m.madeOf) != 120 || len(m.held) != 24 || len(m.marks) != 5 {
		t.Errorf("%d bytes, %d scalars, %d couples, %d results, %d letters, %d marks", len(m.scalars), len(m.bytes), len(m.makes), len(m.madeOf), len(m.held), len(m.marks))
	}
	// So every couple of a letter and a mark has a result, and no two of them the same; and each can be written.
	for _, u := range slices.Concat(m.held, m.marks) {
		if _, ok := m.bytes[u]; !ok {
			t.Errorf("%04X has no byte", u)
		}
	}
	if n := len(m.written()); n != 351 {
		t.Errorf("%d scalars are written", n)
	}
}

// Promise 13.1: letters and marks, and states.

// TestCompose: all letters with all marks.
func TestCompose(t *testing.T) {
	m := newModel(t)
	for _, mark := range m.marks {
		for _, letter := range m.held {
			m.checkCompose(t, letter, mark)
		}
	}
}

// TestResults: some results, as one finds them in the chapter by eye.
func TestResults(t *testing.T) {
	for _, c := range []struct{ letter, mark, u rune }{
		{'A', 0x0300, 0xC0}, {'Y', 0x0300, 0x1EF2}, {'a', 0x0300, 0xE0}, {'y', 0x0300, 0x1EF3}, {0xC2, 0x0300, 0x1EA6}, {0x01B0, 0x0300, 0x1EEB},
		{'A', 0x0309, 0x1EA2}, {'I', 0x0309, 0x1EC8}, {'e', 0x0309, 0x1EBB}, {0xF4, 0x0309, 0x1ED5}, {0x0102, 0x0309, 0x1EB2}, {0x01B0, 0x0309, 0x1EED},
		{'A', 0x0303, 0xC3}, {'I', 0x0303, 0x0128}, {'i', 0x0303, 0x0129}, {'U', 0x0303, 0x0168}, {'u', 0x0303, 0x0169}, {0x01A0, 0x0303, 0x1EE0}, {0x01B0, 0x0303, 0x1EEF},
		{'A', 0x0301, 0xC1}, {'Y', 0x0301, 0xDD}, {'y', 0x0301, 0xFD}, {0xC2, 0x0301, 0x1EA4}, {0xCA, 0x0301, 0x1EBE}, {0xEA, 0x0301, 0x1EBF}, {0x01B0, 0x0301, 0x1EE9},
		{'A', 0x0323, 0x1EA0}, {'O', 0x0323, 0x1ECC}, {'o', 0x0323, 0x1ECD}, {0xD4, 0x0323, 0x1ED8}, {0x0103, 0x0323, 0x1EB7}, {0x01AF, 0x0323, 0x1EF0}, {0x01B0, 0x0323, 0x1EF1},
	} {
		if u, ok := viet.Compose(c.letter, c.mark); u != c.u || !ok {
			t.Errorf("Compose(%04X, %04X) = %04X, %v, want %04X", c.letter, c.mark, u, ok, c.u)
		}
		if letter, mark, ok := viet.Split(c.u); letter != c.letter || mark != c.mark || !ok {
			t.Errorf("Split(%04X) = %04X, %04X, %v, want %04X, %04X", c.u, letter, mark, ok, c.letter, c.mark)
		}
	}
}

// TestComposeNothing: couples that make nothing here, though some of them make something elsewhere.
func TestComposeNothing(t *testing.T) {
	for _, c := range []couple{
		{0, 0}, {0, 0x0300}, {'A', 0}, {'A', 'A'}, {'A', 'B'}, {'B', 0x0300}, {'N', 0x0303}, {'n', 0x0303}, {'C', 0x0301}, {'D', 0x0323}, {'d', 0x0323}, {'Z', 0x0301}, {'@', 0x0300}, {'[', 0x0300},
		{0x0300, 'A'}, {0x0301, 0xC2}, {0x0300, 0x0300}, {0x0300, 0x0301}, {0x0323, 0x0309}, // marks as letters, letters as marks
		{'A', 0x02FF}, {'A', 0x0302}, {'A', 0x0304}, {'A', 0x0306}, {'A', 0x0308}, {'A', 0x030A}, {'O', 0x031B}, {'A', 0x0322}, {'A', 0x0324}, {'A', 0x0340}, {'A', 0x0341}, // other marks
		{'A', 0xCC}, {'A', 0xEC}, {'A', 0xD2}, {'A', 0xDE}, {'A', 0xF2}, // the marks' bytes
		{0xC0, 0x0300}, {0xC0, 0x0301}, {0xC3, 0x0301}, {0x1EA0, 0x0300}, {0x1EA4, 0x0323}, {0x1EF1, 0x0300}, {0x0128, 0x0301}, // results
		{0xDC, 0x0300}, {0xC5, 0x0301}, {0xC6, 0x0301}, {0xD8, 0x0301}, {0x0110, 0x0301}, {0xCB, 0x0300}, {0xFF, 0x0301}, {0x0178, 0x0301},
		{'A', 0x0300 - 0x10000}, {'A', 0x10300}, {'A', 0x110300}, {'A', -0x0300}, {'A', -1}, {'A' + 0x10000, 0x0300}, {'A' + 0x100, 0x0300}, {'A' - 0x10000, 0x0300}, {-'A', 0x0300}, {-1, 0x0300}, {-1, -1},
		{'A' + 1, 0x0300 - 1}, {'A' - 1, 0x0300 + 1}, {0x0300, 0}, {0xFFFD, 0x0300}, {'A', 0xFFFD}, {0xFFFD, 0xFFFD},
	} {
		if u, ok := viet.Compose(c.letter, c.mark); u != 0 || ok {
			t.Errorf("Compose(%04X, %04X) = %04X, %v", c.letter, c.mark, u, ok)
		}
	}
}

// TestComposeEveryNumber: every number with every mark, and with every letter.
func TestComposeEveryNumber(t *testing.T) {
	m := newModel(t)
	for n := fromNumber; n <= toNumber; n++ {
		for _, mark := range m.marks {
			if u, ok := viet.Compose(n, mark); (ok || u != 0) && !m.mayBeHeld(n) {
				t.Fatalf("Compose(%04X, %04X) = %04X, %v", n, mark, u, ok)
			}
		}
	}
	for _, letter := range m.held {
		for n := rune(-0x800); n < 0x2400; n++ {
			m.checkCompose(t, letter, n)
		}
	}
	for n := fromNumber; n <= toNumber; n++ {
		for _, letter := range []rune{'A', 0x01B0} {
			if u, ok := viet.Compose(letter, n); (ok || u != 0) && !slices.Contains(m.marks, n) {
				t.Fatalf("Compose(%04X, %04X) = %04X, %v", letter, n, u, ok)
			}
		}
	}
}

// TestComposeAnyTwo: any two of what can be written, and of wrong numbers.
func TestComposeAnyTwo(t *testing.T) {
	m := newModel(t)
	all := slices.Concat(m.written(), noScalars, []rune{0x02FF, 0x0302, 0x0306, 0x0308, 0x031B, 0x4E00, 0xFFFD, 0x10FFFF})
	for _, letter := range all {
		for _, mark := range all {
			m.checkCompose(t, letter, mark)
		}
	}
}

// TestSplitEveryNumber: every number, the results among them.
func TestSplitEveryNumber(t *testing.T) {
	m := newModel(t)
	for u := fromNumber; u <= toNumber; u++ {
		m.checkSplit(t, u)
	}
	for _, u := range noScalars {
		m.checkSplit(t, u)
	}
}

// TestSplitNothing: the scalar 0, letters and marks alone, and what has marks that are none here.
func TestSplitNothing(t *testing.T) {
	m := newModel(t)
	for _, u := range slices.Concat(m.held, m.marks, noScalars, []rune{0, 'B', 0x7F, 0x80, 0xC4, 0xC5, 0xC7, 0xD1, 0xF1, 0x0110, 0x0111, 0x0178, 0x1E9F, 0x1EFA, 0x01DB, 0x01FA, 0x0106, 0x20AC, 0x4E00, 0xFFFD, 0x10FFFF}) {
		if letter, mark, ok := viet.Split(u); letter != 0 || mark != 0 || ok {
			t.Errorf("Split(%04X) = %04X, %04X, %v", u, letter, mark, ok)
		}
	}
}

// TestComposeOfSplit: what Split answers makes the scalar again.
func TestComposeOfSplit(t *testing.T) {
	n := 0
	for u := fromNumber; u <= toNumber; u++ {
		letter, mark, ok := viet.Split(u)
		if !ok {
			continue
		}
		n++
		if back, ok := viet.Compose(letter, mark); back != u || !ok {
			t.Errorf("%04X is %04X with %04X, which make %04X, %v", u, letter, mark, back, ok)
		}
	}
	if n != 120 {
		t.Errorf("%d scalars are split", n)
	}
}

// TestSplitOfCompose: what Compose answers is split into the letter and the mark again.
func TestSplitOfCompose(t *testing.T) {
	m := newModel(t)
	n := 0
	for letter := rune(0); letter < 0x3000; letter++ {
		for _, mark := range m.marks {
			u, ok := viet.Compose(letter, mark)
			if !ok {
				continue
			}
			n++
			if l, mk, ok := viet.Split(u); l != letter || mk != mark || !ok {
				t.Errorf("%04X with %04X make %04X, which is %04X with %04X, %v", letter, mark, u, l, mk, ok)
			}
		}
	}
	if n != 120 {
		t.Errorf("%d couples make something", n)
	}
}

// TestFits: every number held, and all that is wrong in the other fields.
func TestFits(t *testing.T) {
	m := newModel(t)
	if !viet.Fits(api.State{}) {
		t.Error("the zero State is none")
	}
	for _, letter := range "AEIOUYaeiouyÂÊÔâêôĂăƠơƯư" {
		if !viet.Fits(holding(letter)) {
			t.Errorf("%04X may not be held", letter)
		}
	}
	for u := fromNumber; u <= toNumber; u++ {
		m.checkFits(t, holding(u))
	}
	for _, s := range m.wrongStates() {
		if viet.Fits(s) {
			t.Errorf("Fits(%+v) = true", s)
		}
	}
}

// Promise 13.2: reading.

// TestGetEveryByte: all bytes in all states, alone and with others behind them.
func TestGetEveryByte(t *testing.T) {
	m := newModel(t)
	tails := []string{"", "\x00", "A", "B", "\xCC", "\xEC\xEC", "\x81", "\xFF", strings.Repeat("A\xCC", 10)}
	for _, s := range m.states() {
		for b := range 256 {
			for _, tail := range tails {
				text := append([]byte{byte(b)}, tail...)
				checkGet(t, s, text, m.get(s, text))
			}
		}
	}
}

// TestGetList: all bytes where nothing is held, read and drained, are the chapter's scalars.
func TestGetList(t *testing.T) {
	m := newModel(t)
	for b, want := range m.scalars {
		got, s, err := readAll([]byte{byte(b)})
		switch {
		case want == nothing:
			if err != api.Illegal || len(got) != 0 {
				t.Errorf("%02X: %X, %v", b, got, err)
			}
		case m.mayBeHeld(want):
			if err != api.OK || len(got) != 0 || s != holding(want) {
				t.Errorf("%02X: %X, %v, %+v, want %04X held", b, got, err, s, want)
			}
		default:
			if err != api.OK || !slices.Equal(got, []rune{want}) || s != (api.State{}) {
				t.Errorf("%02X: %X, %v, %+v, want %04X", b, got, err, s, want)
			}
		}
	}
}

// TestPlaces: the edges, and bytes at both ends of the list's stretches, as one finds them by eye.
func TestPlaces(t *testing.T) {
	for b, u := range map[byte]rune{
		0x00: 0, 0x01: 1, 0x1A: 0x1A, 0x1B: 0x1B, 0x40: 0x40, 0x5C: 0x5C, 0x7E: 0x7E, 0x7F: 0x7F,
		0x80: 0x20AC, 0x82: 0x201A, 0x83: 0x0192, 0x88: 0x02C6, 0x89: 0x2030, 0x8B: 0x2039, 0x8C: 0x0152, 0x91: 0x2018, 0x97: 0x2014, 0x98: 0x02DC, 0x99: 0x2122, 0x9B: 0x203A, 0x9C: 0x0153, 0x9F: 0x0178,
		0xA0: 0xA0, 0xC1: 0xC1, 0xC4: 0xC4, 0xCB: 0xCB, 0xCC: 0x0300, 0xCD: 0xCD, 0xCF: 0xCF, 0xD0: 0x0110, 0xD1: 0xD1, 0xD2: 0x0309, 0xD3: 0xD3, 0xD6: 0xD6, 0xDC: 0xDC, 0xDE: 0x0303, 0xDF: 0xDF, 0xE1: 0xE1,
		0xE4: 0xE4, 0xEB: 0xEB, 0xEC: 0x0301, 0xED: 0xED, 0xEF: 0xEF, 0xF0: 0x0111, 0xF1: 0xF1, 0xF2: 0x0323, 0xF3: 0xF3, 0xF6: 0xF6, 0xFC: 0xFC, 0xFE: 0x20AB, 0xFF: 0xFF,
	} {
		checkGet(t, api.State{}, []byte{b}, api.Got{N: 1, K: 1, A: u})
		if p, want := viet.Set(u), (api.Put{Bytes: string([]byte{b})}); p != want {
			t.Errorf("Set(%04X) = %s, want %s", u, told(p), told(want))
		}
	}
	for b, u := range map[byte]rune{'A': 'A', 'Y': 'Y', 'a': 'a', 'y': 'y', 0xC2: 0xC2, 0xC3: 0x0102, 0xCA: 0xCA, 0xD4: 0xD4, 0xD5: 0x01A0, 0xDD: 0x01AF, 0xE2: 0xE2, 0xE3: 0x0103, 0xEA: 0xEA, 0xF4: 0xF4, 0xF5: 0x01A1, 0xFD: 0x01B0} {
		checkGet(t, api.State{}, []byte{b}, api.Got{N: 1, S: holding(u)})
		checkGet(t, holding('e'), []byte{b}, api.Got{N: 1, K: 1, A: 'e', S: holding(u)})
	}
}

// TestZeroScalar: the scalar 0 comes as any other, also behind a letter, and is not nothing that is held.
func TestZeroScalar(t *testing.T) {
	checkGet(t, api.State{}, []byte{0}, api.Got{N: 1, K: 1, A: 0})
	checkGet(t, holding('A'), []byte{0}, api.Got{N: 1, K: 2, A: 'A', B: 0})
	if p, want := viet.Set(0), (api.Put{Bytes: "\x00"}); p != want {
		t.Errorf("Set(0) = %s", told(p))
	}
}

// TestNumbers: no scalar, one or two of a byte; a mark alone, and a mark behind what it makes nothing with.
func TestNumbers(t *testing.T) {
	for _, c := range []struct {
		held rune
		b    byte
		want api.Got
	}{
		{0, 'A', api.Got{N: 1, S: holding('A')}},
		{0, 0xFD, api.Got{N: 1, S: holding(0x01B0)}},
		{0, 'B', api.Got{N: 1, K: 1, A: 'B'}},
		{0, 0xC0, api.Got{N: 1, K: 1, A: 0xC0}},
		{0, 0xCC, api.Got{N: 1, K: 1, A: 0x0300}},
		{'A', 0xCC, api.Got{N: 1, K: 1, A: 0xC0}},
		{'A', 0xF2, api.Got{N: 1, K: 1, A: 0x1EA0}},
		{0x01AF, 0xEC, api.Got{N: 1, K: 1, A: 0x1EE8}},
		{'A', 'A', api.Got{N: 1, K: 1, A: 'A', S: holding('A')}},
		{0x0103, 0xC3, api.Got{N: 1, K: 1, A: 0x0103, S: holding(0x0102)}},
		{'A', 'B', api.Got{N: 1, K: 2, A: 'A', B: 'B'}},
		{'A', 0xC0, api.Got{N: 1, K: 2, A: 'A', B: 0xC0}},
		{'y', 0xFF, api.Got{N: 1, K: 2, A: 'y', B: 0xFF}},
		{0x01A0, 0x80, api.Got{N: 1, K: 2, A: 0x01A0, B: 0x20AC}},
	} {
		checkGet(t, holding(c.held), []byte{c.b}, c.want)
	}
}

// TestGetNothing: no bytes are the beginning of any unit; the state is not told then.
func TestGetNothing(t *testing.T) {
	m := newModel(t)
	for _, s := range m.states() {
		checkGet(t, s, nil, api.Got{Err: api.More})
		checkGet(t, s, []byte{}, api.Got{Err: api.More})
		checkGet(t, s, []byte("A\xCC")[:0], api.Got{Err: api.More})
	}
}

// TestIllegal: exactly these bytes stand for nothing, and what is held stays held.
func TestIllegal(t *testing.T) {
	m := newModel(t)
	illegal := []byte{0x81, 0x8A, 0x8D, 0x8E, 0x8F, 0x90, 0x9A, 0x9D, 0x9E}
	for _, s := range m.states() {
		for b := range 256 {
			for _, tail := range []string{"", "\xCC", "\x81"} {
				text := append([]byte{byte(b)}, tail...)
				if slices.Contains(illegal, byte(b)) {
					checkGet(t, s, text, api.Got{Err: api.Illegal, N: 1, S: s})
				} else if g := viet.Get(s, text); g.Err != api.OK || g.N != 1 {
					t.Fatalf("Get(%+v, % X) = %+v", s, text, g)
				}
			}
		}
	}
	// So a letter and its mark meet across what is passed over.
	g := viet.Get(holding('A'), []byte("\x81\xCC"))
	checkGet(t, g.S, []byte("\xCC"), api.Got{N: 1, K: 1, A: 0xC0})
}

// TestGetWrongState: ErrState, and nothing else, whatever the bytes are.
func TestGetWrongState(t *testing.T) {
	m := newModel(t)
	for _, s := range m.wrongStates() {
		for _, text := range []string{"", "A", "B", "\x00", "\xCC", "\x81", "\xFF", "AB\xCC"} {
			checkGet(t, s, []byte(text), api.Got{Err: api.ErrState})
		}
		for b := range 256 {
			checkGet(t, s, []byte{byte(b)}, api.Got{Err: api.ErrState})
		}
	}
}

// TestGetEveryHeld: a state that holds any number at all is asked, with a byte and without.
func TestGetEveryHeld(t *testing.T) {
	m := newModel(t)
	for u := fromNumber; u <= toNumber; u++ {
		s := holding(u)
		checkGet(t, s, []byte("B"), m.get(s, []byte("B")))
		checkGet(t, s, nil, m.get(s, nil))
	}
}

// TestGetKeepsBytes: what is handed in stays as it is, behind its end too.
func TestGetKeepsBytes(t *testing.T) {
	text := []byte("A\xCCB\x81\xC2\xEC\x00\xFF")
	was := slices.Clone(text)
	for at := range text {
		viet.Get(api.State{}, text[:at])
		viet.Get(holding('A'), text[at:])
	}
	if !slices.Equal(text, was) {
		t.Errorf("% X has become % X", was, text)
	}
}

// TestDrain: every number held, and all that is wrong in the other fields.
func TestDrain(t *testing.T) {
	m := newModel(t)
	if u, ok := viet.Drain(api.State{}); u != 0 || ok {
		t.Errorf("of nothing: %04X, %v", u, ok)
	}
	for _, letter := range "AEIOUYaeiouyÂÊÔâêôĂăƠơƯư" {
		if u, ok := viet.Drain(holding(letter)); u != letter || !ok {
			t.Errorf("of %04X: %04X, %v", letter, u, ok)
		}
	}
	for u := fromNumber; u <= toNumber; u++ {
		m.checkDrain(t, holding(u))
	}
	for _, s := range m.wrongStates() {
		if u, ok := viet.Drain(s); u != 0 || ok {
			t.Errorf("Drain(%+v) = %04X, %v", s, u, ok)
		}
	}
}

// Promise 13.3: writing.

// TestSetEveryNumber: every number, the scalars of one byte and of two among them.
func TestSetEveryNumber(t *testing.T) {
	m := newModel(t)
	for u := fromNumber; u <= toNumber; u++ {
		m.checkSet(t, u)
	}
	for _, u := range noScalars {
		m.checkSet(t, u)
	}
}

// TestSetResults: a result with a byte of its own is written by it, any other by a letter's and a mark's.
func TestSetResults(t *testing.T) {
	m := newModel(t)
	own := map[rune]bool{}
	for _, u := range "ÀÈÙàèùÁÉÍÓÚáéíóú" {
		own[u] = true
		if p, want := viet.Set(u), (api.Put{Bytes: string([]byte{byte(u)})}); p != want {
			t.Errorf("Set(%04X) = %s, want %s", u, told(p), told(want))
		}
	}
	for u, c := range m.madeOf {
		if own[u] {
			continue
		}
		want := api.Put{Bytes: viet.Set(c.letter).Bytes + viet.Set(c.mark).Bytes}
		if p := viet.Set(u); p != want || len(p.Bytes) != 2 {
			t.Errorf("Set(%04X) = %s, want %s", u, told(p), told(want))
		}
	}
	for u, want := range map[rune]string{0xCC: "\x49\xCC", 0xD2: "\x4F\xCC", 0xC3: "\x41\xDE", 0xDD: "\x59\xEC", 0xEC: "\x69\xCC", 0xFD: "\x79\xEC", 0x0128: "\x49\xDE", 0x1EA0: "\x41\xF2", 0x1EB7: "\xE3\xF2", 0x1EC2: "\xCA\xD2", 0x1EDD: "\xF5\xCC", 0x1EF0: "\xDD\xF2", 0x1EF1: "\xFD\xF2", 0x1EF9: "\x79\xDE"} {
		if p := viet.Set(u); p != (api.Put{Bytes: want}) {
			t.Errorf("Set(%04X) = %s, want % X", u, told(p), want)
		}
	}
}

// TestSetNothing: None, and nothing else.
func TestSetNothing(t *testing.T) {
	for _, u := range slices.Concat(noScalars, []rune{0x80, 0x81, 0x8A, 0x9F, 0xF0, 0xDE, 0xFE, 0x0100, 0x0106, 0x0143, 0x0160, 0x017D, 0x02FF, 0x0302, 0x0306, 0x0308, 0x031B, 0x1E9F, 0x1EFA, 0x20AA, 0x20AD, 0x4E00, 0xFFFC, 0xFFFD, 0xFFFE, 0xFFFF, 0x10000, 0x10041, 0x10FFFF}) {
		if p := viet.Set(u); p != (api.Put{Err: api.None}) {
			t.Errorf("Set(%04X) = %s", u, told(p))
		}
	}
}

// Promise 13.4: there and back.

// writeAll is what Set writes for scalars in a row.
func writeAll(t *testing.T, l []rune) []byte {
	var out []byte
	for _, u := range l {
		p := viet.Set(u)
		if p.Err != api.OK || p.S != (api.State{}) || len(p.Bytes) == 0 {
			t.Helper()
			t.Fatalf("Set(%04X) = %s", u, told(p))
		}
		out = append(out, p.Bytes...)
	}
	return out
}

// readAll is what Get reads, from the zero State on, up to the first error; and the state behind it.
func readAll(text []byte) ([]rune, api.State, api.Errno) {
	var s api.State
	var l []rune
	for len(text) > 0 {
		g := viet.Get(s, text)
		if g.Err != api.OK {
			return l, s, g.Err
		}
		l = append(l, []rune{g.A, g.B}[:g.K]...)
		s = g.S
		text = text[g.N:]
	}
	return l, s, api.OK
}

// readAndDrain is readAll, with the letter that is held in the end.
func readAndDrain(t *testing.T, text []byte) []rune {
	l, s, err := readAll(text)
	if err != api.OK {
		t.Helper()
		t.Fatalf("% .40X: %v", text, err)
	}
	if u, ok := viet.Drain(s); ok {
		l = append(l, u)
	}
	return l
}

func checkThereAndBack(t *testing.T, l []rune) {
	text := writeAll(t, l)
	if got := readAndDrain(t, text); !slices.Equal(got, l) {
		t.Helper()
		t.Fatalf("%.40X: written % .40X, read %.40X", l, text, got)
	}
}

// TestThereAndBack: every scalar that is written, alone and behind every other; where a mark would be one with what stands before it, the two are read as what they make.
func TestThereAndBack(t *testing.T) {
	m := newModel(t)
	all := m.written()
	checkThereAndBack(t, nil)
	for _, u := range all {
		checkThereAndBack(t, []rune{u})
		checkThereAndBack(t, []rune{u, u, u})
		for _, v := range all {
			if result, ok := m.makes[couple{u, v}]; ok {
				if got := readAndDrain(t, writeAll(t, []rune{u, v})); !slices.Equal(got, []rune{result}) {
					t.Fatalf("%04X %04X: read %04X, want %04X", u, v, got, result)
				}
				continue
			}
			checkThereAndBack(t, []rune{u, v})
		}
	}
}

// TestThreeInARow: what has marks or may have them, in all rows of three.
func TestThreeInARow(t *testing.T) {
	m := newModel(t)
	all := slices.Concat(m.marks, []rune{0, 'A', 'B', 'y', 0xC0, 0xC2, 0xCC, 0x0102, 0x01B0, 0x1EA4, 0x1EF1, 0x20AC})
	for _, u := range all {
		for _, v := range all {
			for _, w := range all {
				if m.makes[couple{u, v}] == 0 && m.makes[couple{v, w}] == 0 {
					checkThereAndBack(t, []rune{u, v, w})
				}
			}
		}
	}
}

// TestLongRows: long rows, with letters and marks often beside each other.
func TestLongRows(t *testing.T) {
	m := newModel(t)
	all := m.written()
	often := slices.Concat(m.held, m.marks)
	random := rand.New(rand.NewPCG(13, 58))
	for n := range 200 {
		var l []rune
		for len(l) < n*20 {
			from := all
			if random.IntN(2) == 0 {
				from = often
			}
			u := from[random.IntN(len(from))]
			if len(l) > 0 && m.makes[couple{l[len(l)-1], u}] != 0 {
				continue
			}
			l = append(l, u)
		}
		checkThereAndBack(t, l)
	}
}

// TestRowsOfBytes: any bytes, right and wrong, read step by step as the chapter says.
func TestRowsOfBytes(t *testing.T) {
	m := newModel(t)
	random := rand.New(rand.NewPCG(1258, 13))
	often := []byte("AEYauy\xC2\xC3\xD5\xFD\xCC\xD2\xDE\xEC\xF2\x81\x9E\x00")
	for range 300 {
		text := make([]byte, random.IntN(200))
		for i := range text {
			text[i] = byte(random.IntN(256))
			if random.IntN(3) > 0 {
				text[i] = often[random.IntN(len(often))]
			}
		}
		var s api.State
		for at := range text {
			want := m.get(s, text[at:])
			checkGet(t, s, text[at:], want)
			s = want.S
		}
		m.checkDrain(t, s)
	}
}
