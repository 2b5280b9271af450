package utf8_test

import (
	"bytes"
	"fmt"
	"math"
	"math/rand/v2"
	"slices"
	"strings"
	"testing"
	stdutf8 "unicode/utf8"

	"dragoman/api"
	"dragoman/utf8"
)

// isScalar says it in the document's words, apart from the program.
func isScalar(u rune) bool {
	return 0 <= u && u < 0xD800 || 0xDFFF < u && u < 0x110000
}

// unit is a scalar's bytes, written out by quotients, apart from the program's shifts.
func unit(u rune) string {
	var b []byte
	switch {
	case u < 0x80:
		b = []byte{byte(u)}
	case u < 0x800:
		b = []byte{byte(0xC0 + u/64), byte(0x80 + u%64)}
	case u < 0x10000:
		b = []byte{byte(0xE0 + u/4096), byte(0x80 + u/64%64), byte(0x80 + u%64)}
	default:
		b = []byte{byte(0xF0 + u/262144), byte(0x80 + u/4096%64), byte(0x80 + u/64%64), byte(0x80 + u%64)}
	}
	return string(b)
}

// list is all units there are, and all that is the beginning of one and not a whole one.
// A key is the bytes as one number: no unit begins with a nought but the nought itself, and so no two are alike.
type list struct {
	units  map[uint32]rune
	begins map[uint32]bool
}

func newList() list {
	l := list{units: map[uint32]rune{}, begins: map[uint32]bool{}}
	for u := rune(0); u <= 0x10FFFF; u++ {
		if !isScalar(u) {
			continue
		}
		b := unit(u)
		key := uint32(0)
		for k := range len(b) {
			key = key<<8 | uint32(b[k])
			if k < len(b)-1 {
				l.begins[key] = true
			}
		}
		l.units[key] = u
	}
	return l
}

// get is what Get answers by the list alone.
func (l list) get(b []byte) api.Got {
	key := uint32(0)
	for k, x := range b {
		key = key<<8 | uint32(x)
		if u, ok := l.units[key]; ok {
			return api.Got{N: k + 1, K: 1, A: u}
		}
		if !l.begins[key] {
			return api.Got{Err: api.Illegal, N: max(k, 1)}
		}
	}
	return api.Got{Err: api.More}
}

// scalars is what Valid and Scalars answer by the list alone.
func (l list) scalars(b []byte) (at int, all []rune, err api.Errno) {
	for at < len(b) {
		g := l.get(b[at:])
		if g.Err != api.OK {
			return at, nil, g.Err
		}
		at += g.N
		all = append(all, g.A)
	}
	return at, all, api.OK
}

func checkGet(t *testing.T, b []byte, want api.Got) {
	t.Helper()
	if got := utf8.Get(b); got != want {
		t.Errorf("Get(% X) = %+v, want %+v", b, got, want)
	}
}

func checkText(t *testing.T, b []byte, at int, all []rune, err api.Errno) {
	t.Helper()
	if n, ok := utf8.Valid(b); n != at || ok != (err == api.OK) {
		t.Errorf("Valid(% .40X) = %d, %v, want %d, %v", b, n, ok, at, err == api.OK)
	}
	if got, e := utf8.Scalars(b); !slices.Equal(got, all) || e != err {
		t.Errorf("Scalars(% .40X) = %.40X, %v, want %.40X, %v", b, got, e, all, err)
	}
}

// TestExamples are the chapter's.
func TestExamples(t *testing.T) {
	for _, c := range []struct {
		b    string
		want api.Got
	}{
		{"\xC3\xA4\x41", api.Got{N: 2, K: 1, A: 0xE4}},
		{"\xC3", api.Got{Err: api.More}},
		{"\xC3\x41", api.Got{Err: api.Illegal, N: 1}},
		{"\xC0\x80", api.Got{Err: api.Illegal, N: 1}},
		{"\xE0\x80\x80", api.Got{Err: api.Illegal, N: 1}},
		{"\xED\xA0\x80", api.Got{Err: api.Illegal, N: 1}},
		{"\xF4\x90\x80\x80", api.Got{Err: api.Illegal, N: 1}},
		{"\xE2\x82\x41", api.Got{Err: api.Illegal, N: 2}},
	} {
		checkGet(t, []byte(c.b), c.want)
	}
	if got, want := utf8.Set(0x20AC), (api.Put{Bytes: "\xE2\x82\xAC"}); got != want {
		t.Errorf("Set(20AC) = %+v", got)
	}
	if got, want := utf8.Set(0xD800), (api.Put{Err: api.None}); got != want {
		t.Errorf("Set(D800) = %+v", got)
	}
}

// TestGetUnits is promise 3.1: the first and the last scalar of each length, and those around the surrogates.
func TestGetUnits(t *testing.T) {
	for _, c := range []struct {
		b string
		n int
		u rune
	}{
		{"\x00", 1, 0}, {"\x41", 1, 0x41}, {"\x7F", 1, 0x7F},
		{"\xC2\x80", 2, 0x80}, {"\xC3\xA4", 2, 0xE4}, {"\xDF\xBF", 2, 0x7FF},
		{"\xE0\xA0\x80", 3, 0x800}, {"\xE0\xBF\xBF", 3, 0xFFF}, {"\xE1\x80\x80", 3, 0x1000}, {"\xE2\x82\xAC", 3, 0x20AC},
		{"\xED\x80\x80", 3, 0xD000}, {"\xED\x9F\xBF", 3, 0xD7FF}, {"\xEE\x80\x80", 3, 0xE000}, {"\xEF\xBF\xBD", 3, 0xFFFD}, {"\xEF\xBF\xBF", 3, 0xFFFF},
		{"\xF0\x90\x80\x80", 4, 0x10000}, {"\xF0\x9F\x98\x80", 4, 0x1F600}, {"\xF0\xBF\xBF\xBF", 4, 0x3FFFF}, {"\xF1\x80\x80\x80", 4, 0x40000},
		{"\xF3\xBF\xBF\xBF", 4, 0xFFFFF}, {"\xF4\x80\x80\x80", 4, 0x100000}, {"\xF4\x8F\xBF\xBF", 4, 0x10FFFF},
	} {
		want := api.Got{N: c.n, K: 1, A: c.u}
		for _, tail := range []string{"", "\x00", "A", "\x80", "\xBF", "\xC3", "\xC3\xA4", "\xE2\x82", "\xF4\x8F\xBF", "\xFF", c.b, strings.Repeat("\x80", 9), strings.Repeat("z", 100)} {
			checkGet(t, []byte(c.b+tail), want)
		}
		for cut := range c.n {
			checkGet(t, []byte(c.b[:cut]), api.Got{Err: api.More})
		}
		if got := utf8.Set(c.u); got != (api.Put{Bytes: c.b}) {
			t.Errorf("Set(%X) = %+v", c.u, got)
		}
	}
}

// TestGetWrong is promise 3.1: where no unit begins, and how many bytes are passed over then.
func TestGetWrong(t *testing.T) {
	for _, c := range []struct {
		n     int
		texts []string
	}{
		// Bytes that begin no unit, the first of those longer than the shortest and of those beyond 10FFFF among them.
		{1, []string{"\x80", "\xBF", "\xC0", "\xC1", "\xF5", "\xF7", "\xF8", "\xFB", "\xFC", "\xFD", "\xFE", "\xFF",
			"\x80\x80", "\x80A", "\xC0\x80", "\xC0\xAF", "\xC1\xBF", "\xF5\x80\x80\x80", "\xF8\x88\x80\x80\x80", "\xFC\x84\x80\x80\x80\x80", "\xFF\xFE", "\xFEA"}},
		// One byte that begins one, and a second with which it does not.
		{1, []string{"\xC2\x00", "\xC2\x7F", "\xC2\xC0", "\xC2\xC2\x80", "\xDFA", "\xDF\xFF", "\xE1A", "\xE1\x7F", "\xE1\xC0", "\xF1\x7F", "\xF1\xC0",
			"\xE0\x80", "\xE0\x9F", "\xE0\x9F\xBF", "\xE0A\x80", "\xED\xA0", "\xED\xA0\x80", "\xED\xAF\xBF", "\xED\xB0\x80", "\xED\xBF\xBF",
			"\xF0\x80", "\xF0\x8F", "\xF0\x8F\xBF\xBF", "\xF0\x82\x82\xAC", "\xF4\x90", "\xF4\x90\x80\x80", "\xF4\xBF\xBF\xBF"}},
		// Two that begin one, and a third.
		{2, []string{"\xE0\xA0\x7F", "\xE0\xA0\xC0", "\xE2\x82A", "\xE2\x82\xE2\x82\xAC", "\xED\x9F\x00", "\xED\x9F\xFF", "\xEF\xBF\xC0",
			"\xF0\x90\x7F", "\xF0\x90\xC0\x80", "\xF0\x9FA", "\xF4\x8F\xFF\xBF", "\xF4\x80\x00\x80"}},
		// Three, and a fourth.
		{3, []string{"\xF0\x90\x80\x00", "\xF0\x90\x80\x7F", "\xF0\x90\x80\xC0", "\xF0\x9F\x98A", "\xF0\x9F\x98\xF0\x9F\x98\x80", "\xF1\x80\x80\xE2", "\xF4\x8F\xBF\xFF", "\xF4\x8F\xBF\xC3\xA4"}},
	} {
		for _, s := range c.texts {
			for _, tail := range []string{"", "A", "\x80", "\xC3\xA4", "\xFF\xFF\xFF\xFF\xFF\xFF\xFF\xFF"} {
				checkGet(t, []byte(s+tail), api.Got{Err: api.Illegal, N: c.n})
			}
		}
	}
}

// TestGetMore is promise 3.1: beginnings with nothing behind them, no bytes at all among them.
func TestGetMore(t *testing.T) {
	checkGet(t, nil, api.Got{Err: api.More})
	checkGet(t, []byte{}, api.Got{Err: api.More})
	for _, s := range []string{
		"\xC2", "\xDF", "\xE0", "\xE1", "\xEC", "\xED", "\xEE", "\xEF", "\xF0", "\xF1", "\xF3", "\xF4",
		"\xE0\xA0", "\xE0\xBF", "\xE1\x80", "\xE2\x82", "\xED\x80", "\xED\x9F", "\xEE\x80", "\xEF\xBF", "\xF0\x90", "\xF0\xBF", "\xF1\x80", "\xF3\xBF", "\xF4\x80", "\xF4\x8F",
		"\xF0\x90\x80", "\xF0\x90\xBF", "\xF0\x9F\x98", "\xF1\x80\x80", "\xF3\xBF\xBF", "\xF4\x80\x80", "\xF4\x8F\xBF",
	} {
		checkGet(t, []byte(s), api.Got{Err: api.More})
		// The bytes of a list end where it ends, whatever lies in the room behind.
		spare := append([]byte(s), 0x80, 0x80, 0x80)
		checkGet(t, spare[:len(s)], api.Got{Err: api.More})
	}
}

// TestGetByList is promise 3.1 and 3.3: all texts of up to four bytes of which the fourth, or the third, matters, and some of the others.
func TestGetByList(t *testing.T) {
	l := newList()
	some := []byte{0x41, 0x80, 0xC3, 0xFF}
	every := make([]byte, 256)
	for k := range every {
		every[k] = byte(k)
	}
	var grow func(b []byte)
	grow = func(b []byte) {
		want := l.get(b)
		checkGet(t, b, want)
		if want.Err == api.OK && utf8.Set(want.A).Bytes != string(b[:want.N]) {
			t.Errorf("Set(%X) is not what was taken of % X", want.A, b)
		}
		next := some
		if want.Err == api.More || len(b) < 2 {
			next = every
		}
		if len(b) == 4 || t.Failed() {
			return
		}
		for _, x := range next {
			grow(append(b, x))
		}
	}
	grow(make([]byte, 0, 4))
}

// TestSet is promise 3.1: every scalar, and the numbers beside them.
func TestSet(t *testing.T) {
	check := func(u rune) {
		want := api.Put{Err: api.None}
		if isScalar(u) {
			want = api.Put{Bytes: unit(u)}
		}
		if got := utf8.Set(u); got != want {
			t.Errorf("Set(%X) = %+v, want %+v", u, got, want)
		}
	}
	for u := rune(-0x1000); u < 0x210000; u++ {
		check(u)
	}
	for _, u := range []rune{math.MinInt32, math.MinInt32 + 1, math.MinInt32 + 0x41, -0x110000, -0x10000, 0x3FFFFFF, 0x7FFFFFFE, math.MaxInt32} {
		check(u)
	}
}

// TestSetNone is promise 3.1: numbers that are no scalars, written out.
func TestSetNone(t *testing.T) {
	for _, u := range []rune{math.MinInt32, -0x41, -1, 0xD800, 0xDBFF, 0xDC00, 0xDFFF, 0x110000, 0x1FFFFF, 0x200000, math.MaxInt32} {
		if got, want := utf8.Set(u), (api.Put{Err: api.None}); got != want {
			t.Errorf("Set(%X) = %+v, want %+v", u, got, want)
		}
	}
}

// TestTexts is promise 3.2, with the answers written out.
func TestTexts(t *testing.T) {
	for _, c := range []struct {
		b   string
		at  int
		all []rune
		err api.Errno
	}{
		{"", 0, nil, api.OK},
		{"\x00", 1, []rune{0}, api.OK},
		{"abc", 3, []rune{0x61, 0x62, 0x63}, api.OK},
		{"a\xC3\xA4\xE2\x82\xAC\xF0\x9F\x98\x80z", 11, []rune{0x61, 0xE4, 0x20AC, 0x1F600, 0x7A}, api.OK},
		{"\xEF\xBB\xBFa", 4, []rune{0xFEFF, 0x61}, api.OK},
		{"\xEF\xBF\xBD", 3, []rune{0xFFFD}, api.OK},
		{"\xC3", 0, nil, api.More},
		{"ab\xC3", 2, nil, api.More},
		{"\xC3\xA4\xF0\x9F\x98", 2, nil, api.More},
		{"\x80", 0, nil, api.Illegal},
		{"ab\xFFcd", 2, nil, api.Illegal},
		{"ab\xC3cd", 2, nil, api.Illegal},
		{"ab\xE2\x82", 2, nil, api.More},
		{"ab\xE2\x82c", 2, nil, api.Illegal},
		{"a\xED\xA0\x80", 1, nil, api.Illegal},
		{"a\xFF\xC3", 1, nil, api.Illegal}, // the first that is not OK tells
		{"\xC3\xA4\xC0\x80\xC3", 2, nil, api.Illegal},
		{"\xC3\xA4\xE0\x80", 2, nil, api.Illegal},
		{"\xE2\x82\xAC\xF4\x90", 3, nil, api.Illegal},
	} {
		checkText(t, []byte(c.b), c.at, c.all, c.err)
	}
	checkText(t, nil, 0, nil, api.OK)
}

// TestTextsByList is promise 3.2: rows of units, of their beginnings and of any bytes.
func TestTextsByList(t *testing.T) {
	l := newList()
	r := rand.New(rand.NewPCG(3, 2))
	for range 20000 {
		b := row(r, r.IntN(4))
		at, all, err := l.scalars(b)
		checkText(t, b, at, all, err)
		if _, ok := utf8.Valid(b); ok != stdutf8.Valid(b) {
			t.Errorf("Valid(% X) = %v", b, ok)
		}
	}
}

// row is some units and, in front of, between or behind them, so many parts of others or other bytes.
func row(r *rand.Rand, wrong int) []byte {
	var parts []string
	for range r.IntN(8) {
		parts = append(parts, unit(anyScalar(r)))
	}
	for range wrong {
		s := unit(anyScalar(r))
		if r.IntN(3) == 0 {
			s = string([]byte{byte(r.IntN(256)), byte(r.IntN(256))})
		}
		parts = slices.Insert(parts, r.IntN(len(parts)+1), s[:r.IntN(len(s)+1)])
	}
	return []byte(strings.Join(parts, ""))
}

// anyScalar is a scalar; each length is as likely as another.
func anyScalar(r *rand.Rand) rune {
	ends := []rune{0, 0x80, 0x800, 0x10000, 0x110000}
	for {
		k := r.IntN(4)
		if u := ends[k] + r.Int32N(ends[k+1]-ends[k]); isScalar(u) {
			return u
		}
	}
}

// TestGetOfSet is promise 3.3: for every scalar, whatever follows.
func TestGetOfSet(t *testing.T) {
	tails := []string{"", "\x00", "A", "\x80", "\xBF", "\xC3", "\xC3\xA4", "\xED\xA0\x80", "\xF4", "\xFF", "\x80\x80\x80\x80"}
	for u := rune(0); u <= 0x10FFFF; u++ {
		if !isScalar(u) {
			continue
		}
		p := utf8.Set(u)
		if p.Err != api.OK {
			t.Fatalf("Set(%X) = %+v", u, p)
		}
		for _, tail := range tails {
			want := api.Got{N: len(p.Bytes), K: 1, A: u}
			if got := utf8.Get([]byte(p.Bytes + tail)); got != want {
				t.Fatalf("Get of Set(%X), and % X behind: %+v, want %+v", u, tail, got, want)
			}
		}
	}
}

// TestSetOfGet is promise 3.3: what Get has got is written as it was read.
func TestSetOfGet(t *testing.T) {
	r := rand.New(rand.NewPCG(3, 3))
	for range 50000 {
		b := row(r, 1)
		g := utf8.Get(b)
		if g.Err != api.OK {
			continue
		}
		if p := utf8.Set(g.A); p != (api.Put{Bytes: string(b[:g.N])}) {
			t.Errorf("Set(%X) = %+v, taken were % X", g.A, p, b[:g.N])
		}
	}
}

// TestCut is promise 3.3: a valid text, cut anywhere, has a valid beginning, and then less than a unit.
func TestCut(t *testing.T) {
	r := rand.New(rand.NewPCG(3, 4))
	texts := [][]byte{[]byte("a\xC3\xA4\xE2\x82\xAC\xF0\x9F\x98\x80\xED\x9F\xBF\xEE\x80\x80\xF4\x8F\xBF\xBF\x7F\xC2\x80\xDF\xBF\xE0\xA0\x80\xEF\xBF\xBF\xF0\x90\x80\x80")}
	for range 2000 {
		texts = append(texts, row(r, 0))
	}
	for _, b := range texts {
		all, err := utf8.Scalars(b)
		if n, ok := utf8.Valid(b); n != len(b) || !ok || err != api.OK {
			t.Fatalf("% X is not valid", b)
		}
		at, units := 0, 0
		for cut := range len(b) + 1 {
			if units < len(all) && at+len(unit(all[units])) == cut {
				at, units = cut, units+1
			}
			want, e := all[:units], api.OK
			if at < cut {
				want, e = nil, api.More
				checkGet(t, b[at:cut], api.Got{Err: api.More})
			}
			checkText(t, b[:cut], at, want, e)
			checkText(t, b[:at], at, all[:units], api.OK)
		}
	}
}

// TestLongTexts is promise 3.2 beyond every limit.
func TestLongTexts(t *testing.T) {
	part := "a\xC3\xA4\xE2\x82\xAC\xF0\x9F\x98\x80"
	times := 1 + 2*api.MaxIn/len(part)
	b := []byte(strings.Repeat(part, times))
	var all []rune
	for range times {
		all = append(all, 0x61, 0xE4, 0x20AC, 0x1F600)
	}
	checkText(t, b, len(b), all, api.OK)
	checkText(t, b[:len(b)-1], len(b)-4, nil, api.More)
	checkText(t, append(b, 0xFF), len(b), nil, api.Illegal)
	checkGet(t, b, api.Got{N: 1, K: 1, A: 0x61})
}

// TestMemory is rule R4: what is handed in stays, and no answer shares memory with it or with another.
func TestMemory(t *testing.T) {
	whole := []byte("a\xC3\xA4\xE2\x82\xACb\xFF\xC3\x00\x80\x80")
	kept := bytes.Clone(whole)
	for n := range len(whole) + 1 {
		utf8.Get(whole[:n])
		utf8.Valid(whole[:n])
		utf8.Scalars(whole[:n])
		if !bytes.Equal(whole, kept) {
			t.Fatalf("the first %d bytes of % X are % X afterwards", n, kept, whole)
		}
	}
	one, _ := utf8.Scalars(whole[:7])
	two, _ := utf8.Scalars(whole[:7])
	clear(whole)
	want := fmt.Sprint([]rune{0x61, 0xE4, 0x20AC, 0x62})
	if fmt.Sprint(one) != want {
		t.Errorf("scalars are %v once the bytes are others, want %v", one, want)
	}
	clear(one[:cap(one)])
	if fmt.Sprint(two) != want {
		t.Errorf("scalars are %v once another answer is changed, want %v", two, want)
	}
}
