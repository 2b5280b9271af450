package dense_test

import (
	"fmt"
	"math"
	"math/rand/v2"
	"slices"
	"strings"
	"testing"
	stdutf8 "unicode/utf8"

	"dragoman/api"
	"dragoman/dense"
)

// model is a table by the document's words, apart from the program: the scalars one by one, and every answer by going through them.
type model struct {
	first   int
	scalars []rune
}

func (m model) scalar(b int) (rune, bool) {
	for i, u := range m.scalars {
		if m.first+i == b && u != 0xFFFD {
			return u, true
		}
	}
	return 0, false
}

func (m model) byteOf(u rune) (byte, bool) {
	i := slices.Index(m.scalars, u)
	if i < 0 || u == 0xFFFD {
		return 0, false
	}
	return byte(m.first + i), true
}

// isScalar says it in the document's words, apart from the program.
func isScalar(u rune) bool { return 0 <= u && u < 0xD800 || 0xDFFF < u && u < 0x110000 }

// unit is a scalar's bytes, written out by quotients.
func unit(u rune) string {
	switch {
	case u < 0x80:
		return string([]byte{byte(u)})
	case u < 0x800:
		return string([]byte{byte(0xC0 + u/64), byte(0x80 + u%64)})
	case u < 0x10000:
		return string([]byte{byte(0xE0 + u/4096), byte(0x80 + u/64%64), byte(0x80 + u%64)})
	}
	return string([]byte{byte(0xF0 + u/262144), byte(0x80 + u/4096%64), byte(0x80 + u/64%64), byte(0x80 + u%64)})
}

// textOf is the text with these scalars.
func textOf(l []rune) string {
	var s strings.Builder
	for _, u := range l {
		s.WriteString(unit(u))
	}
	return s.String()
}

// wantNew is the error that New answers by the document.
func wantNew(first int, text string) api.Errno {
	switch {
	case first < 0 || first > 255:
		return api.ErrRange
	case !stdutf8.ValidString(text):
		return api.ErrField
	case stdutf8.RuneCountInString(text) > 256-first:
		return api.ErrLong
	}
	return api.OK
}

// edges are numbers at which Byte is asked of every table: what is no scalar, what stands beside that, and what is alike in its lowest bits.
var edges = []rune{
	math.MinInt32, math.MinInt32 + 'a', math.MinInt32 + 0xFFFD, -0x110000, -0x10000, -0xFFFD, -256, -255, -128, -'a', -2, -1,
	0, 1, 'a', 'b', 0x7F, 0x80, 0xE4, 0xFF, 0x100, 0x100 + 'a', 0x7FF, 0x800, 0xD7FF, 0xD800, 0xDBFF, 0xDC00, 0xDFFF, 0xE000,
	0xFFFC, 0xFFFD, 0xFFFE, 0xFFFF, 0x10000, 0x10000 + 'a', 0x1F600, 0x1FFFD, 0x10FFFE, 0x10FFFF, 0x110000, 0x110000 + 'a',
	0x200000 + 'a', 0x1000000 + 'a', math.MaxInt32 - 1, math.MaxInt32,
}

// short tells a text without filling the screen.
func short(s string) string {
	if len(s) > 40 {
		return fmt.Sprintf("%+q .. (%d bytes)", s[:40], len(s))
	}
	return fmt.Sprintf("%+q", s)
}

func checkError(t *testing.T, first int, text string, want api.Errno) {
	t.Helper()
	if x, e := dense.New(first, text); x != nil || e != want {
		t.Fatalf("New(%d, %s) = %v, error %d, want none, error %d", first, short(text), x != nil, e, want)
	}
}

func checkByte(t *testing.T, x *dense.Table, m model, u rune) {
	t.Helper()
	b, ok := x.Byte(u)
	if want, wantOK := m.byteOf(u); b != want || ok != wantOK {
		t.Fatalf("New(%d, %s): Byte(%X) = %d, %v, want %d, %v", m.first, short(textOf(m.scalars)), u, b, ok, want, wantOK)
	}
}

// checkTable holds a table against the model at every byte, at each of its scalars, at those beside them and at the edges, and its text.
func checkTable(t *testing.T, first int, scalars []rune) *dense.Table {
	t.Helper()
	m, text := model{first, scalars}, textOf(scalars)
	x, e := dense.New(first, text)
	if x == nil || e != api.OK {
		t.Fatalf("New(%d, %s) = %v, error %d", first, short(text), x != nil, e)
	}
	for b := range 256 {
		u, ok := x.Scalar(byte(b))
		if want, wantOK := m.scalar(b); u != want || ok != wantOK {
			t.Fatalf("New(%d, %s): Scalar(%d) = %X, %v, want %X, %v", first, short(text), b, u, ok, want, wantOK)
		}
	}
	for _, u := range scalars {
		for _, v := range []rune{u - 1, u, u + 1, u + 0x10000, u + 0x110000, -u} {
			checkByte(t, x, m, v)
		}
	}
	for _, u := range edges {
		checkByte(t, x, m, u)
	}
	if got := x.Text(); got != text {
		t.Fatalf("New(%d, %s): Text() = %s", first, short(text), short(got))
	}
	return x
}

// fill is n scalars, over and over those of a list.
func fill(n int, of ...rune) []rune {
	l := make([]rune, n)
	for i := range l {
		l[i] = of[i%len(of)]
	}
	return l
}

// TestExamples: the chapter's.
func TestExamples(t *testing.T) {
	x, e := dense.New(128, "a\u00E4\uFFFDa")
	if e != api.OK {
		t.Fatalf("error %d", e)
	}
	for _, c := range []struct {
		b  byte
		u  rune
		ok bool
	}{{0, 0, false}, {127, 0, false}, {128, 'a', true}, {129, 0xE4, true}, {130, 0, false}, {131, 'a', true}, {132, 0, false}, {255, 0, false}} {
		if u, ok := x.Scalar(c.b); u != c.u || ok != c.ok {
			t.Errorf("Scalar(%d) = %X, %v, want %X, %v", c.b, u, ok, c.u, c.ok)
		}
	}
	for _, c := range []struct {
		u  rune
		b  byte
		ok bool
	}{{'a', 128, true}, {0xE4, 129, true}, {0xFFFD, 0, false}, {'b', 0, false}, {0, 0, false}, {-1, 0, false}} {
		if b, ok := x.Byte(c.u); b != c.b || ok != c.ok {
			t.Errorf("Byte(%X) = %d, %v, want %d, %v", c.u, b, ok, c.b, c.ok)
		}
	}
	if s := x.Text(); s != "a\xC3\xA4\xEF\xBF\xBDa" {
		t.Errorf("Text() = %+q", s)
	}
	checkError(t, 255, "ab", api.ErrLong)
	checkError(t, 256, "", api.ErrRange)
	checkError(t, 0, "\xFF", api.ErrField)
}

// Promise 7.1.

// TestFirst: where the first byte may be, whatever the text is.
func TestFirst(t *testing.T) {
	texts := []string{"", "a", "ab", "\uFFFD", "\x00", "\xFF", "\xC3", strings.Repeat("a", 256), strings.Repeat("a", 257), strings.Repeat("a", 257) + "\xFF", strings.Repeat("\xFF", 300)}
	check := func(first int) {
		for _, text := range texts {
			checkError(t, first, text, api.ErrRange)
		}
	}
	for _, first := range []int{math.MinInt, math.MinInt + 128, math.MinInt32, -1 << 32, -65536, -512, math.MaxInt, math.MaxInt - 127, math.MaxInt32, 1 << 31, 1 << 32, 1<<32 + 128, 1 << 16, 1<<16 + 255} {
		check(first)
	}
	for n := range 1024 {
		check(-1 - n)
		check(256 + n)
	}
	for first := range 256 {
		checkTable(t, first, nil)
		checkTable(t, first, []rune{'a'})
	}
}

// TestNothing: of the text with nothing in it a table is made too, and it knows no byte.
func TestNothing(t *testing.T) {
	for first := range 256 {
		x := checkTable(t, first, nil)
		for b := range 256 {
			if u, ok := x.Scalar(byte(b)); u != 0 || ok {
				t.Fatalf("New(%d, nothing): Scalar(%d) = %X, %v", first, b, u, ok)
			}
		}
		if b, ok := x.Byte(0); b != 0 || ok {
			t.Fatalf("New(%d, nothing): Byte(0) = %d, %v", first, b, ok)
		}
	}
}

// TestLong: just as many scalars as there are bytes left, and one more; it does not matter how many bytes a scalar has, whether it was there already, or whether it stands for nothing.
func TestLong(t *testing.T) {
	sorts := [][]rune{{'a'}, {0}, {0xE4}, {0x20AC}, {0xFFFD}, {0x1F600}, {0x10FFFF}, {0x61, 0x301}, {'a', 0xE4, 0x20AC, 0x1F600}, {0xFFFD, 'a'}, {'a', 0xFFFD}}
	for first := range 256 {
		for _, sort := range sorts {
			for _, less := range []int{0, 1, 2} {
				if n := 256 - first - less; n >= 0 {
					checkTable(t, first, fill(n, sort...))
				}
			}
			for _, more := range []int{1, 2, 255, 256, 257} {
				checkError(t, first, textOf(fill(256-first+more, sort...)), api.ErrLong)
			}
		}
		// One scalar more than bytes, where there are as few bytes in the text as may be, and as many.
		checkError(t, first, strings.Repeat("\x7F", 257-first), api.ErrLong)
		checkError(t, first, strings.Repeat("\xF4\x8F\xBF\xBF", 257-first), api.ErrLong)
		// One scalar too many, of another sort than those ahead of it: whatever it is, it counts.
		for _, last := range []rune{0, 'a', 'b', 0xE4, 0xFFFD, 0x10FFFF} {
			checkError(t, first, strings.Repeat("a", 256-first)+unit(last), api.ErrLong)
		}
	}
	// Beyond every limit; counts that are the same as a lesser one in their lowest bits.
	for _, n := range []int{512, 1 << 10, 1 << 16, 1<<16 + 1, 1<<20 + 1, 1 << 22} {
		checkError(t, 0, strings.Repeat("a", n), api.ErrLong)
		checkError(t, 255, strings.Repeat("\xEF\xBF\xBD", n), api.ErrLong)
	}
}

// broken are texts that are no valid UTF-8.
var broken = []string{
	// Surrogates in three bytes, and two of them that would make a scalar.
	"\xED\xA0\x80", "\xED\xAF\xBF", "\xED\xB0\x80", "\xED\xBF\xBF", "\xED\xA0\xBD\xED\xB8\x80",
	// Longer than they need be.
	"\xC0\x80", "\xC1\xA1", "\xC1\xBF", "\xE0\x80\x80", "\xE0\x81\xA1", "\xE0\x9F\xBF", "\xF0\x80\x80\x80", "\xF0\x8F\xBF\xBF", "\xF0\x8F\xBF\xBD",
	// Broken off.
	"\xC3", "\xDF", "\xE0", "\xE2\x82", "\xEF\xBF", "\xED\x9F", "\xF0\x9F", "\xF0\x9F\x98", "\xF4\x8F\xBF",
	// Beyond 10FFFF, and more bytes than any unit has.
	"\xF4\x90\x80\x80", "\xF5\x80\x80\x80", "\xF7\xBF\xBF\xBF", "\xF8\x88\x80\x80\x80", "\xFC\x84\x80\x80\x80\x80",
	// Bytes that are none of any unit, or behind none.
	"\xFE", "\xFF", "\x80", "\xBF", "\x80\x80\x80",
}

// TestBroken: at the beginning, between and at the end, in a text of any length.
func TestBroken(t *testing.T) {
	pieces := []string{"", "a", "\x00", "\u00E4", "\uFFFD", "\U0001F600", strings.Repeat("a", 127), strings.Repeat("a", 254)}
	for _, first := range []int{0, 1, 127, 128, 254, 255} {
		for _, bad := range broken {
			if stdutf8.ValidString(bad) {
				t.Fatalf("%+q is valid", bad)
			}
			for _, ahead := range pieces {
				for _, behind := range pieces {
					text := ahead + bad + behind
					if stdutf8.ValidString(text) {
						t.Fatalf("%+q is valid", text)
					}
					checkError(t, first, text, api.ErrField)
				}
			}
		}
	}
}

// TestBrokenAndLong: what is broken stands ahead of what is too long, wherever it is: also behind the last scalar that there is a byte for.
func TestBrokenAndLong(t *testing.T) {
	for first := range 256 {
		n := 256 - first
		for _, bad := range broken {
			for _, sort := range []string{"a", "\u00E4", "\uFFFD"} {
				for _, ahead := range []int{n - 1, n, n + 1, n + 300} {
					checkError(t, first, strings.Repeat(sort, ahead)+bad, api.ErrField)
				}
				checkError(t, first, bad+strings.Repeat(sort, n+1), api.ErrField)
				checkError(t, first, strings.Repeat(sort, n+1)+bad+strings.Repeat(sort, n+1), api.ErrField)
			}
		}
	}
	for _, bad := range broken {
		checkError(t, 0, strings.Repeat("a", 1<<20+1)+bad, api.ErrField)
		checkError(t, 255, bad+strings.Repeat("a", 1<<20+1), api.ErrField)
	}
}

// TestOrder: each error where others would fit too.
func TestOrder(t *testing.T) {
	long, wrong := strings.Repeat("a", 257), "\xC3"
	for _, c := range []struct {
		first int
		text  string
		want  api.Errno
	}{
		{-1, wrong, api.ErrRange},
		{256, wrong, api.ErrRange},
		{-1, long, api.ErrRange},
		{256, long, api.ErrRange},
		{256, "a", api.ErrRange},
		{257, "", api.ErrRange},
		{-1, long + wrong, api.ErrRange},
		{256, wrong + long, api.ErrRange},
		{0, long + wrong, api.ErrField},
		{255, wrong + long, api.ErrField},
		{255, "ab" + wrong, api.ErrField},
		{255, wrong, api.ErrField},
		{0, long, api.ErrLong},
		{255, "ab", api.ErrLong},
	} {
		checkError(t, c.first, c.text, c.want)
		if want := wantNew(c.first, c.text); want != c.want {
			t.Errorf("New(%d, %s): the model says %d, the test %d", c.first, short(c.text), want, c.want)
		}
	}
}

// TestShortTexts: New of every text of up to two bytes, and of those of three and four whose bytes are at the edges of what a unit has.
func TestShortTexts(t *testing.T) {
	check := func(text string) {
		for _, first := range []int{-1, 0, 128, 254, 255, 256} {
			x, e := dense.New(first, text)
			if want := wantNew(first, text); e != want || (x != nil) != (want == api.OK) {
				t.Fatalf("New(%d, %+q) = %v, error %d, want error %d", first, text, x != nil, e, want)
			}
			if x != nil && x.Text() != text {
				t.Fatalf("New(%d, %+q): Text() = %+q", first, text, x.Text())
			}
		}
	}
	for a := range 256 {
		check(string([]byte{byte(a)}))
		for b := range 256 {
			check(string([]byte{byte(a), byte(b)}))
		}
	}
	some := []byte{0x00, 0x41, 0x7F, 0x80, 0x8F, 0x90, 0x9F, 0xA0, 0xBD, 0xBF, 0xC0, 0xC1, 0xC2, 0xDF, 0xE0, 0xE1, 0xED, 0xEF, 0xF0, 0xF1, 0xF4, 0xF5, 0xFF}
	for _, a := range some {
		for _, b := range some {
			for _, c := range some {
				check(string([]byte{a, b, c}))
				for _, d := range some {
					check(string([]byte{a, b, c, d}))
				}
			}
		}
	}
}

// Promise 7.2.

// TestPlaces: ahead of the first byte, at it, at the last and behind it, wherever the table is.
func TestPlaces(t *testing.T) {
	for first := range 256 {
		for n := 1; n <= 256-first; n++ {
			l := make([]rune, n)
			for i := range l {
				l[i] = 0x4E00 + rune(i)
			}
			x, e := dense.New(first, string(l))
			if e != api.OK {
				t.Fatalf("New(%d, %d scalars): error %d", first, n, e)
			}
			for _, c := range []struct {
				b    int
				want rune
			}{{0, 0}, {first - 1, 0}, {first, 0x4E00}, {first + n/2, l[n/2]}, {first + n - 1, l[n-1]}, {first + n, 0}, {255, 0}} {
				if c.b < 0 || c.b > 255 {
					continue
				}
				if c.want == 0 && c.b >= first && c.b < first+n {
					continue
				}
				if u, ok := x.Scalar(byte(c.b)); u != c.want || ok != (c.want != 0) {
					t.Fatalf("New(%d, %d scalars): Scalar(%d) = %X, %v, want %X", first, n, c.b, u, ok, c.want)
				}
			}
			for _, i := range []int{0, n / 2, n - 1} {
				if b, ok := x.Byte(l[i]); int(b) != first+i || !ok {
					t.Fatalf("New(%d, %d scalars): Byte(%X) = %d, %v, want %d", first, n, l[i], b, ok, first+i)
				}
			}
			for _, u := range []rune{0x4DFF, 0x4E00 + rune(n)} {
				if b, ok := x.Byte(u); b != 0 || ok {
					t.Fatalf("New(%d, %d scalars): Byte(%X) = %d, %v, want none", first, n, u, b, ok)
				}
			}
		}
	}
}

// TestMissing: U+FFFD as itself in the text stands for nothing, yet it takes a byte, and it is in the text that is told.
func TestMissing(t *testing.T) {
	for _, c := range []struct {
		text  string
		bytes map[rune]byte
		none  []byte
	}{
		{"\uFFFD", nil, []byte{0}},
		{"\uFFFDa", map[rune]byte{'a': 1}, []byte{0}},
		{"a\uFFFD", map[rune]byte{'a': 0}, []byte{1}},
		{"a\uFFFDb", map[rune]byte{'a': 0, 'b': 2}, []byte{1}},
		{"\uFFFDa\uFFFD", map[rune]byte{'a': 1}, []byte{0, 2}},
		{"\uFFFD\uFFFD\uFFFD", nil, []byte{0, 1, 2}},
		{"\uFFFDaa\uFFFD\uFFFDb", map[rune]byte{'a': 1, 'b': 5}, []byte{0, 3, 4}},
		{"\uFFFC\uFFFD\uFFFE", map[rune]byte{0xFFFC: 0, 0xFFFE: 2}, []byte{1}},
	} {
		for _, first := range []int{0, 1, 128, 250} {
			x, e := dense.New(first, c.text)
			if e != api.OK {
				t.Fatalf("New(%d, %+q): error %d", first, c.text, e)
			}
			for u, at := range c.bytes {
				if b, ok := x.Byte(u); int(b) != first+int(at) || !ok {
					t.Errorf("New(%d, %+q): Byte(%X) = %d, %v, want %d", first, c.text, u, b, ok, first+int(at))
				}
				if v, ok := x.Scalar(byte(first) + at); v != u || !ok {
					t.Errorf("New(%d, %+q): Scalar(%d) = %X, %v, want %X", first, c.text, first+int(at), v, ok, u)
				}
			}
			for _, at := range c.none {
				if u, ok := x.Scalar(byte(first) + at); u != 0 || ok {
					t.Errorf("New(%d, %+q): Scalar(%d) = %X, %v, want nothing", first, c.text, first+int(at), u, ok)
				}
			}
			if b, ok := x.Byte(0xFFFD); b != 0 || ok {
				t.Errorf("New(%d, %+q): Byte(FFFD) = %d, %v", first, c.text, b, ok)
			}
			if b, ok := x.Byte(0); b != 0 || ok {
				t.Errorf("New(%d, %+q): Byte(0) = %d, %v", first, c.text, b, ok)
			}
			if s := x.Text(); s != c.text {
				t.Errorf("New(%d, %+q): Text() = %+q", first, c.text, s)
			}
		}
	}
}

// TestNought: U+0000 is a scalar like any other, and not the 0 beside a false.
func TestNought(t *testing.T) {
	for _, c := range []struct {
		first int
		text  string
		at    int
	}{
		{0, "\x00", 0}, {255, "\x00", 255}, {128, "\x00", 128},
		{0, "a\x00", 1}, {128, "\uFFFD\x00", 129}, {7, "a\x00b\x00", 8}, {0, "\x00a", 0}, {0, "\x00\x00", 0}, {254, "\x00\x00", 254},
	} {
		x, e := dense.New(c.first, c.text)
		if e != api.OK {
			t.Fatalf("New(%d, %+q): error %d", c.first, c.text, e)
		}
		if b, ok := x.Byte(0); int(b) != c.at || !ok {
			t.Errorf("New(%d, %+q): Byte(0) = %d, %v, want %d", c.first, c.text, b, ok, c.at)
		}
		if u, ok := x.Scalar(byte(c.at)); u != 0 || !ok {
			t.Errorf("New(%d, %+q): Scalar(%d) = %X, %v, want 0, true", c.first, c.text, c.at, u, ok)
		}
		if s := x.Text(); s != c.text {
			t.Errorf("New(%d, %+q): Text() = %+q", c.first, c.text, s)
		}
		checkTable(t, c.first, []rune(c.text))
	}
	x, _ := dense.New(1, "a")
	if b, ok := x.Byte(0); b != 0 || ok {
		t.Errorf("without a nought: Byte(0) = %d, %v", b, ok)
	}
}

// TestLeast: of several bytes that stand for a scalar the least is told, whatever stands between.
func TestLeast(t *testing.T) {
	for first := range 256 {
		n := 256 - first
		for _, u := range []rune{0, 'a', 0xE4, 0x20AC, 0x1F600} {
			x := checkTable(t, first, fill(n, u))
			if b, ok := x.Byte(u); int(b) != first || !ok {
				t.Fatalf("New(%d, all %X): Byte = %d, %v", first, u, b, ok)
			}
		}
		checkTable(t, first, fill(n, 'x', 'y', 0xFFFD, 'x', 0, 'y', 0xE4, 0))
		if n < 3 {
			continue
		}
		ends := fill(n, 'z')
		ends[n-1], ends[1] = 'a', 'a'
		x := checkTable(t, first, ends)
		if b, ok := x.Byte('a'); int(b) != first+1 || !ok {
			t.Fatalf("New(%d, a at the second and the last): Byte = %d, %v", first, b, ok)
		}
	}
}

// TestNumbers: Byte at all numbers from below 0 to above 10FFFF, and of each that has one of these in its lowest 21 bits.
func TestNumbers(t *testing.T) {
	for _, m := range []model{
		{0, nil},
		{0, []rune{0}},
		{200, []rune{'a', 0xE4, 0xFFFD, 0x1F600, 'a'}},
		{128, []rune{0xD7FF, 0xE000, 0xFFFC, 0xFFFD, 0xFFFE, 0xFFFF, 0x10000, 0x10FFFF, 0}},
	} {
		x, e := dense.New(m.first, textOf(m.scalars))
		if e != api.OK {
			t.Fatalf("error %d", e)
		}
		for u := rune(-0x8000); u < 0x118000; u++ {
			checkByte(t, x, m, u)
		}
		for high := int64(math.MinInt32); high <= math.MaxInt32; high += 1 << 21 {
			if high == 0 {
				continue
			}
			for _, u := range slices.Concat(m.scalars, edges) {
				v := rune(high + int64(uint32(u)&0x1FFFFF))
				checkByte(t, x, m, v)
				if b, ok := x.Byte(v); !isScalar(v) && (b != 0 || ok) {
					t.Fatalf("Byte(%X) = %d, %v, and it is no scalar", v, b, ok)
				}
			}
		}
	}
}

// TestEveryScalar: every scalar stands in some table, alone among others.
func TestEveryScalar(t *testing.T) {
	var l []rune
	check := func() {
		checkTable(t, 256-len(l), l)
		l = l[:0]
	}
	for u := rune(0); u <= 0x10FFFF; u++ {
		if !isScalar(u) {
			continue
		}
		if l = append(l, u); len(l) == 100 {
			check()
		}
	}
	check()
}

// TestSmallTables: all tables of up to five out of six scalars, at either end of the bytes and between.
func TestSmallTables(t *testing.T) {
	sorts := []rune{0, 'a', 'b', 0xE4, 0xFFFD, 0x1F600}
	var grow func(l []rune)
	grow = func(l []rune) {
		for _, first := range []int{0, 1, 128, 256 - len(l)} {
			if first < 256 {
				follow(t, checkTable(t, first, l), l)
			}
		}
		if len(l) == 5 {
			return
		}
		for _, u := range sorts {
			grow(append(slices.Clone(l), u))
		}
	}
	grow(nil)
}

// TestRandomTables: long ones, of few sorts and of many.
func TestRandomTables(t *testing.T) {
	r := rand.New(rand.NewPCG(7, 7))
	for range 3000 {
		first := r.IntN(256)
		n := r.IntN(257 - first)
		most := []rune{1, 4, 300, 0x10000, 0x110000}[r.IntN(5)]
		l := make([]rune, 0, n)
		for len(l) < n {
			switch u := r.Int32N(most); {
			case r.IntN(8) == 0:
				l = append(l, 0xFFFD)
			case isScalar(u):
				l = append(l, u)
			}
		}
		follow(t, checkTable(t, first, l), l)
	}
}

// Promise 7.3.

// follow: Scalar of Byte is the scalar; Byte of Scalar is the byte, or a lesser one that stands for the same. It is asked of a table alone, without the model.
func follow(t *testing.T, x *dense.Table, l []rune) {
	t.Helper()
	for _, u := range slices.Concat(l, edges) {
		b, ok := x.Byte(u)
		if !ok {
			continue
		}
		if v, ok := x.Scalar(b); v != u || !ok {
			t.Fatalf("%s: Byte(%X) = %d, of which Scalar is %X, %v", short(textOf(l)), u, b, v, ok)
		}
	}
	for b := range 256 {
		u, ok := x.Scalar(byte(b))
		if !ok {
			continue
		}
		least, ok := x.Byte(u)
		if !ok || int(least) > b {
			t.Fatalf("%s: Scalar(%d) = %X, of which Byte is %d, %v", short(textOf(l)), b, u, least, ok)
		}
		if v, ok := x.Scalar(least); v != u || !ok {
			t.Fatalf("%s: Scalar(%d) = %X, but Scalar(%d) = %X, %v", short(textOf(l)), b, u, least, v, ok)
		}
	}
}

// TestThereAndBack: of tables where every byte has a scalar of its own the byte itself comes back, and Text makes the same table again.
func TestThereAndBack(t *testing.T) {
	for first := range 256 {
		var l []rune
		for b := first; b < 256; b++ {
			l = append(l, rune(b*100+b%3*0x10000)) // of one byte to four
		}
		x := checkTable(t, first, l)
		follow(t, x, l)
		for b := first; b < 256; b++ {
			u, _ := x.Scalar(byte(b))
			if back, ok := x.Byte(u); int(back) != b || !ok {
				t.Fatalf("New(%d, ..): Byte of Scalar(%d) = %d, %v", first, b, back, ok)
			}
		}
		again, e := dense.New(first, x.Text())
		if e != api.OK || again.Text() != x.Text() {
			t.Fatalf("New(%d, Text()): error %d", first, e)
		}
	}
}

// What holds in every layer.

// TestApart: tables do not know of one another, of refused ones neither, and asking changes none (R2, R4).
func TestApart(t *testing.T) {
	one, _ := dense.New(10, "abc\uFFFD")
	two, _ := dense.New(20, "cba")
	ask := func(x *dense.Table) string {
		var s strings.Builder
		for b := range 256 {
			u, ok := x.Scalar(byte(b))
			fmt.Fprint(&s, u, ok, " ")
		}
		for u := rune(-300); u < 300; u++ {
			b, ok := x.Byte(u)
			fmt.Fprint(&s, b, ok, " ")
		}
		return s.String() + x.Text()
	}
	before, beforeTwo := ask(one), ask(two)
	dense.New(10, "xyz")
	dense.New(255, "ab")
	dense.New(-1, "abc")
	dense.New(0, "abc\xFF")
	if ask(one) != before || ask(two) != beforeTwo || before == beforeTwo {
		t.Error("a table has changed")
	}
	if b, ok := one.Byte('a'); b != 10 || !ok {
		t.Errorf("one: Byte(a) = %d, %v", b, ok)
	}
	if b, ok := two.Byte('a'); b != 22 || !ok {
		t.Errorf("two: Byte(a) = %d, %v", b, ok)
	}
	same, _ := dense.New(10, "abc\uFFFD")
	if same == one {
		t.Error("the same table is handed out twice")
	}
}
