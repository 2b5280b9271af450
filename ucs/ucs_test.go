package ucs_test

import (
	"fmt"
	"math"
	"strings"
	"testing"

	"dragoman/ucs"
)

// edges are the numbers at which something begins or ends, each with those beside it.
func edges() []rune {
	l := []rune{math.MinInt32, math.MinInt32 + 1, -0x10000, -0x41, math.MaxInt32 - 1, math.MaxInt32}
	for _, u := range []rune{0, 0x41, 0xFFF, 0x1000, 0xD800, 0xDC00, 0xE000, 0xFFFF, 0x10000, 0xFFFFF, 0x100000, 0x10FFFF, 0x110000, 0xFFFFFF} {
		l = append(l, u-1, u, u+1)
	}
	return l
}

// isScalar says it in the document's words, apart from the program.
func isScalar(u rune) bool {
	return 0 <= u && u < 0xD800 || 0xDFFF < u && u < 0x110000
}

// TestClasses is promise 1.1, over all scalars and some numbers beside them.
func TestClasses(t *testing.T) {
	check := func(u rune) {
		if got := ucs.Scalar(u); got != isScalar(u) {
			t.Errorf("Scalar(%X) = %v", u, got)
		}
		plane := -1
		if isScalar(u) {
			plane = int(u) / 0x10000
		}
		if got := ucs.Plane(u); got != plane {
			t.Errorf("Plane(%X) = %d, want %d", u, got, plane)
		}
		if got, want := ucs.High(u), u >= 0xD800 && u <= 0xDBFF; got != want {
			t.Errorf("High(%X) = %v", u, got)
		}
		if got, want := ucs.Low(u), u >= 0xDC00 && u <= 0xDFFF; got != want {
			t.Errorf("Low(%X) = %v", u, got)
		}
	}
	for u := rune(-0x200); u < 0x110200; u++ {
		check(u)
	}
	for _, u := range edges() {
		check(u)
	}
}

// TestClassesAtEdges is promise 1.1 at the edges, with the answers written out.
func TestClassesAtEdges(t *testing.T) {
	for _, c := range []struct {
		u                 rune
		scalar, high, low bool
		plane             int
	}{
		{math.MinInt32, false, false, false, -1},
		{-1, false, false, false, -1},
		{0, true, false, false, 0},
		{0xD7FF, true, false, false, 0},
		{0xD800, false, true, false, -1},
		{0xDBFF, false, true, false, -1},
		{0xDC00, false, false, true, -1},
		{0xDFFF, false, false, true, -1},
		{0xE000, true, false, false, 0},
		{0xFFFF, true, false, false, 0},
		{0x10000, true, false, false, 1},
		{0x1FFFF, true, false, false, 1},
		{0x20000, true, false, false, 2},
		{0xFFFFF, true, false, false, 15},
		{0x100000, true, false, false, 16},
		{0x10FFFF, true, false, false, 16},
		{0x110000, false, false, false, -1},
		{math.MaxInt32, false, false, false, -1},
	} {
		if ucs.Scalar(c.u) != c.scalar || ucs.High(c.u) != c.high || ucs.Low(c.u) != c.low || ucs.Plane(c.u) != c.plane {
			t.Errorf("%X: %v %v %v %d, want %v %v %v %d", c.u,
				ucs.Scalar(c.u), ucs.High(c.u), ucs.Low(c.u), ucs.Plane(c.u), c.scalar, c.high, c.low, c.plane)
		}
	}
}

// TestJoin is promise 1.2: two surrogates.
func TestJoin(t *testing.T) {
	for _, c := range []struct{ high, low, want rune }{
		{0xD800, 0xDC00, 0x10000},
		{0xD800, 0xDFFF, 0x103FF},
		{0xD801, 0xDC00, 0x10400},
		{0xD83D, 0xDE00, 0x1F600},
		{0xDBFF, 0xDC00, 0x10FC00},
		{0xDBFF, 0xDFFF, 0x10FFFF},
	} {
		if u, ok := ucs.Join(c.high, c.low); u != c.want || !ok {
			t.Errorf("Join(%X, %X) = %X, %v, want %X", c.high, c.low, u, ok, c.want)
		}
	}
}

// TestJoinOfOthers is promise 1.2: what is not a high surrogate and a low one, in this order.
func TestJoinOfOthers(t *testing.T) {
	for _, a := range edges() {
		for _, b := range edges() {
			if a >= 0xD800 && a <= 0xDBFF && b >= 0xDC00 && b <= 0xDFFF {
				continue
			}
			if u, ok := ucs.Join(a, b); u != 0 || ok {
				t.Errorf("Join(%X, %X) = %X, %v", a, b, u, ok)
			}
		}
	}
}

// TestSplit is promise 1.2: scalars of two surrogates, and other numbers.
func TestSplit(t *testing.T) {
	for _, c := range []struct{ u, high, low rune }{
		{0x10000, 0xD800, 0xDC00},
		{0x103FF, 0xD800, 0xDFFF},
		{0x10400, 0xD801, 0xDC00},
		{0x1F600, 0xD83D, 0xDE00},
		{0x10FFFF, 0xDBFF, 0xDFFF},
	} {
		if h, l, ok := ucs.Split(c.u); h != c.high || l != c.low || !ok {
			t.Errorf("Split(%X) = %X, %X, %v, want %X, %X", c.u, h, l, ok, c.high, c.low)
		}
	}
	for _, u := range edges() {
		if u >= 0x10000 && u <= 0x10FFFF {
			continue
		}
		if h, l, ok := ucs.Split(u); h != 0 || l != 0 || ok {
			t.Errorf("Split(%X) = %X, %X, %v", u, h, l, ok)
		}
	}
}

// TestHex is promise 1.3: the least and the most digits, and what is between.
func TestHex(t *testing.T) {
	for want, u := range map[string]rune{
		"U+0000": 0, "U+000A": 0xA, "U+0041": 0x41, "U+0ABC": 0xABC, "U+0FFF": 0xFFF, "U+1000": 0x1000,
		"U+D7FF": 0xD7FF, "U+E000": 0xE000, "U+FFFF": 0xFFFF,
		"U+10000": 0x10000, "U+1F600": 0x1F600, "U+FFFFF": 0xFFFFF,
		"U+100000": 0x100000, "U+10FFFF": 0x10FFFF,
	} {
		if got := ucs.Hex(u); got != want {
			t.Errorf("Hex(%X) = %q, want %q", u, got, want)
		}
		if got, ok := ucs.Parse(want); got != u || !ok {
			t.Errorf("Parse(%q) = %X, %v", want, got, ok)
		}
	}
	for u := rune(0); u <= 0x10FFFF; u++ {
		if !isScalar(u) {
			continue
		}
		if got, want := ucs.Hex(u), fmt.Sprintf("U+%04X", u); got != want {
			t.Errorf("Hex(%X) = %q, want %q", u, got, want)
		}
	}
}

// TestHexOfOthers is promise 1.3: what is no scalar has no writing.
func TestHexOfOthers(t *testing.T) {
	for u := rune(0xD800); u <= 0xDFFF; u++ {
		if got := ucs.Hex(u); got != "" {
			t.Errorf("Hex(%X) = %q", u, got)
		}
	}
	for _, u := range edges() {
		if got := ucs.Hex(u); !isScalar(u) && got != "" {
			t.Errorf("Hex(%X) = %q", u, got)
		}
	}
}

// parsesNot fails if a text is a scalar's writing.
func parsesNot(t *testing.T, s string) {
	t.Helper()
	if u, ok := ucs.Parse(s); u != 0 || ok {
		t.Errorf("Parse(%.40q) = %X, %v", s, u, ok)
	}
}

// TestParseOfOthers is promise 1.3: texts that no scalar's Hex is.
func TestParseOfOthers(t *testing.T) {
	for _, s := range []string{
		"", "U", "+", "U+", "U0041", "0041", "+0041", "u+0041", "U-0041", "UU+0041", "U++041", "U+U+0041",
		"U+0", "U+41", "U+041", "U+00041", "U+000041", "U+0000041", "U+00000", "U+0FFFF", "U+010000", "U+01F600", "U+0010FFFF",
		"U+00a1", "U+abcd", "U+1f600", "U+10ffff", "U+004G", "U+004/", "U+004:", "U+004@", "U+-041", "U++041", "U+0x41", "U+0_41",
		" U+0041", "U+0041 ", "U+ 041", "U+0041\n", "U+0041\x00", "\x00U+0041", "U+0041U+0041",
		"U+D800", "U+DBFF", "U+DC00", "U+DFFF", "U+110000", "U+200000", "U+FFFFFF", "U+1000000", "U+7FFFFFFF", "U+80000000",
		"U+100000041", "U+10000000000000041",
		"U+004\xFF", "U+\xC3\xA4", "U+00\u0664\u0661", "U+\uFF10\uFF10\uFF14\uFF11", "\uFF35+0041", "U+004\U0001F600", "U+004\uFFFD", "\xFFU+0041",
		"U+" + strings.Repeat("0", 1<<16) + "41", strings.Repeat("U+0041", 1<<16), "U+0041" + strings.Repeat("0", 1<<20),
	} {
		parsesNot(t, s)
	}
	for b := range 256 {
		if strings.Contains("0123456789ABCDEF", string(rune(b))) {
			continue
		}
		for at := range 4 {
			digits := []byte("0041")
			digits[at] = byte(b)
			parsesNot(t, "U+"+string(digits))
		}
	}
}

// TestParseOfDigits is promise 1.3: all texts of up to five digits, and those of six about the last scalar.
func TestParseOfDigits(t *testing.T) {
	check := func(width int, u rune) {
		s := fmt.Sprintf("U+%0*X", width, u)
		if want := isScalar(u) && s == fmt.Sprintf("U+%04X", u); !want {
			parsesNot(t, s)
		} else if got, ok := ucs.Parse(s); got != u || !ok {
			t.Errorf("Parse(%q) = %X, %v", s, got, ok)
		}
	}
	for width := 1; width <= 5; width++ {
		for u := rune(0); u < 1<<(4*width); u++ {
			check(width, u)
		}
	}
	for u := rune(0x0F0000); u < 0x120000; u++ {
		check(6, u)
	}
}

// TestSplitAndJoin is promise 1.4: they undo one another, from either side.
func TestSplitAndJoin(t *testing.T) {
	for u := rune(0x10000); u <= 0x10FFFF; u++ {
		h, l, ok := ucs.Split(u)
		if back, joined := ucs.Join(h, l); !ok || !joined || back != u {
			t.Fatalf("%X is split into %X, %X, and joined to %X", u, h, l, back)
		}
	}
	for h := rune(0xD800); h <= 0xDBFF; h++ {
		for l := rune(0xDC00); l <= 0xDFFF; l++ {
			u, ok := ucs.Join(h, l)
			if h2, l2, split := ucs.Split(u); !ok || !split || h2 != h || l2 != l {
				t.Fatalf("%X, %X are joined to %X, and split into %X, %X", h, l, u, h2, l2)
			}
		}
	}
}

// TestHexAndParse is promise 1.4: they undo one another, and no writing stands for two scalars.
func TestHexAndParse(t *testing.T) {
	whose := map[string]rune{}
	for u := rune(0); u <= 0x10FFFF; u++ {
		if !isScalar(u) {
			continue
		}
		s := ucs.Hex(u)
		if other, ok := whose[s]; ok {
			t.Fatalf("%X and %X are both %q", other, u, s)
		}
		whose[s] = u
		back, ok := ucs.Parse(s)
		if !ok || back != u || ucs.Hex(back) != s {
			t.Fatalf("Parse(%q) = %X, %v, want %X", s, back, ok, u)
		}
	}
}
