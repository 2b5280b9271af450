package utf7_test

import (
	"bytes"
	"encoding/base64"
	"fmt"
	"math"
	"math/rand/v2"
	"slices"
	"strings"
	"testing"
	"unicode/utf16"

	"dragoman/api"
	"dragoman/utf7"
)

// The states that have no other field.
var (
	outside = api.State{}
	begun   = api.State{Mode: 2}
)

// within is a state of Mode 1.
func within(bits int, acc uint32, held rune) api.State {
	return api.State{Mode: 1, Bits: bits, Acc: acc, Held: held}
}

// The kinds of bytes are asked by ranges and numbers here, apart from the program's lists.

func isLetterOrDigit(c int) bool {
	return 0x41 <= c && c <= 0x5A || 0x61 <= c && c <= 0x7A || 0x30 <= c && c <= 0x39
}

// isPlain: the letters, the digits, ' ( ) , - . / : ? and blank, tab, line feed, carriage return.
func isPlain(c int) bool {
	switch c {
	case 0x27, 0x28, 0x29, 0x2C, 0x2D, 0x2E, 0x2F, 0x3A, 0x3F, 0x20, 0x09, 0x0A, 0x0D:
		return true
	}
	return isLetterOrDigit(c)
}

// standsForItself: all that can be seen, and blank, tab, line feed, carriage return, but for + \ ~ alone.
func standsForItself(c int) bool {
	if c == 0x09 || c == 0x0A || c == 0x0D {
		return true
	}
	return 0x20 <= c && c <= 0x7E && c != 0x2B && c != 0x5C && c != 0x7E
}

// digitOf is a base 64 digit's number by the library, or -1.
func digitOf(c int) int {
	b, err := base64.RawStdEncoding.DecodeString(string([]byte{byte(c), 'A'}))
	if err != nil || c == '\r' || c == '\n' {
		return -1
	}
	return int(b[0]) >> 2
}

// digitOfAll is digitOf of all bytes, since the tests ask it very often.
var digitOfAll = func() (l [256]int) {
	for c := range l {
		l[c] = digitOf(c)
	}
	return l
}()

// isScalar says it in the document's words, apart from the program.
func isScalar(u rune) bool { return 0 <= u && u < 0xD800 || 0xDFFF < u && u < 0x110000 }

// wantGet is what Get answers by the document, of a state that is right; the bits left over are reckoned as a number with quotients.
func wantGet(s api.State, b []byte) api.Got {
	if len(b) == 0 {
		return api.Got{Err: api.More}
	}
	c := int(b[0])
	self := api.Got{N: 1, K: 1, A: rune(c)}
	wrong := api.Got{Err: api.Illegal, N: 1}
	d := digitOfAll[c]
	switch {
	case s.Mode == 0 && c == 0x2B:
		return api.Got{N: 1, S: begun}
	case s.Mode == 0 && standsForItself(c):
		return self
	case s.Mode == 2 && c == 0x2D:
		return api.Got{N: 1, K: 1, A: 0x2B}
	case s.Mode == 2 && d >= 0:
		return api.Got{N: 1, S: within(6, uint32(d), 0)}
	case s.Mode == 1 && d >= 0:
		return wantDigit(s, d)
	case s.Mode == 1 && (s.Held != 0 || s.Bits >= 6 || s.Acc != 0):
		return wrong
	case s.Mode == 1 && c == 0x2D:
		return api.Got{N: 1}
	case s.Mode == 1 && standsForItself(c):
		return self
	}
	return wrong
}

func wantDigit(s api.State, d int) api.Got {
	all, size := int64(s.Acc)*64+int64(d), s.Bits+6
	if size < 16 {
		return api.Got{N: 1, S: within(size, uint32(all), s.Held)}
	}
	left := size - 16
	power := int64(math.Pow(2, float64(left)))
	unit, acc := rune(all/power), uint32(all%power)
	isHigh, isLow := unit/0x400 == 0x36, unit/0x400 == 0x37
	switch {
	case s.Held != 0 && isLow:
		return api.Got{N: 1, K: 1, A: utf16.DecodeRune(s.Held, unit), S: within(left, acc, 0)}
	case s.Held != 0 || isLow:
		return api.Got{Err: api.Illegal, N: 1}
	case isHigh:
		return api.Got{N: 1, S: within(left, acc, unit)}
	}
	return api.Got{N: 1, K: 1, A: unit, S: within(left, acc, 0)}
}

// bitsOf is a number in noughts and ones.
func bitsOf(n uint32, size int) string {
	if size == 0 {
		return ""
	}
	return fmt.Sprintf("%0*b", size, n)
}

// number is noughts and ones as a number.
func number(bits string) (n uint32) {
	for _, r := range bits {
		n = n*2 + uint32(r-'0')
	}
	return n
}

// digitsOf is noughts and ones, six by six, as the library writes digits.
func digitsOf(bits string) string {
	out := ""
	for ; len(bits) >= 6; bits = bits[6:] {
		out += base64.RawStdEncoding.EncodeToString([]byte{byte(number(bits[:6]) << 2)})[:1]
	}
	return out
}

// lastOf is the digit that bits left over make with noughts behind them.
func lastOf(s api.State) string {
	if s.Bits == 0 {
		return ""
	}
	return digitsOf((bitsOf(s.Acc, s.Bits) + "000000")[:6])
}

// wantSet is what Set answers by the document, of a state that writing may have; bits are texts of noughts and ones.
func wantSet(s api.State, u rune) api.Put {
	if !isScalar(u) {
		return api.Put{Err: api.None}
	}
	if isPlain(int(u)) {
		front := ""
		if s.Mode == 1 {
			front = lastOf(s)
			if isLetterOrDigit(int(u)) || u == 0x2F || u == 0x2D {
				front += "-"
			}
		}
		return api.Put{Bytes: front + string(u)}
	}
	front := ""
	if s.Mode == 0 {
		front = "+"
		if u == 0x2B {
			return api.Put{Bytes: "+-"}
		}
	}
	bits := bitsOf(s.Acc, s.Bits)
	for _, unit := range utf16.Encode([]rune{u}) {
		bits += bitsOf(uint32(unit), 16)
	}
	left := bits[len(bits)-len(bits)%6:]
	return api.Put{Bytes: front + digitsOf(bits), S: within(len(left), number(left), 0)}
}

// wantEnd is what End answers by the document.
func wantEnd(s api.State) string {
	if s.Mode == 0 {
		return ""
	}
	return lastOf(s) + "-"
}

func checkGet(t *testing.T, s api.State, b []byte, want api.Got) {
	if got := utf7.Get(s, b); got != want {
		t.Helper()
		t.Errorf("Get(%+v, % .40X) = %+v, want %+v", s, b, got, want)
	}
}

// told is what was put out, in words.
func told(p api.Put) string { return fmt.Sprintf("{%d, %q, %+v}", int(p.Err), p.Bytes, p.S) }

func checkSet(t *testing.T, s api.State, u rune, want api.Put) {
	if got := utf7.Set(s, u); got != want {
		t.Helper()
		t.Errorf("Set(%+v, %X) = %s, want %s", s, u, told(got), told(want))
	}
}

func checkEnd(t *testing.T, s api.State, want string, wantErr api.Errno) {
	if got, err := utf7.End(s); got != want || err != wantErr {
		t.Helper()
		t.Errorf("End(%+v) = %q, %d, want %q, %d", s, got, int(err), want, int(wantErr))
	}
}

// stopIfFailed ends a test of very many inputs at the first that is wrong.
func stopIfFailed(t *testing.T) {
	if t.Failed() {
		t.FailNow()
	}
}

// writeAll is what Set and End write for scalars, from the zero State on.
func writeAll(t *testing.T, l []rune) string {
	var s api.State
	var out strings.Builder
	for i, u := range l {
		p := utf7.Set(s, u)
		if p.Err != api.OK || len(p.Bytes) > 8 {
			t.Fatalf("%X: the scalar at %d: Set(%+v, %X) = %s", l, i, s, u, told(p))
		}
		out.WriteString(p.Bytes)
		s = p.S
	}
	last, err := utf7.End(s)
	if err != api.OK || len(last) > 8 {
		t.Fatalf("%X: End(%+v) = %q, %d", l, s, last, int(err))
	}
	return out.String() + last
}

// readAll is what Get reads, from the zero State on, up to the first error; and the state behind it.
func readAll(text string) ([]rune, api.State, api.Errno) {
	var s api.State
	var l []rune
	for b := []byte(text); len(b) > 0; {
		g := utf7.Get(s, b)
		if g.Err != api.OK {
			return l, s, g.Err
		}
		if g.K == 1 {
			l = append(l, g.A)
		}
		s = g.S
		b = b[g.N:]
	}
	return l, s, api.OK
}

func checkThereAndBack(t *testing.T, l []rune) {
	text := writeAll(t, l)
	if got, s, err := readAll(text); !slices.Equal(got, l) || s != outside || err != api.OK {
		t.Helper()
		t.Fatalf("%X: written %q, read %X, state %+v, error %d", l, text, got, s, int(err))
	}
}

// writeWhole is a text in UTF-7 as the library's base 64 writes stretches as a whole, not step by step.
func writeWhole(l []rune) string {
	var out strings.Builder
	for at := 0; at < len(l); {
		from := at
		if isPlain(int(l[at])) || l[at] == '+' {
			out.WriteRune(l[at])
			if l[at] == '+' {
				out.WriteByte('-')
			}
			at++
			continue
		}
		for at < len(l) && !isPlain(int(l[at])) {
			at++
		}
		var units []byte
		for _, unit := range utf16.Encode(l[from:at]) {
			units = append(units, byte(unit>>8), byte(unit))
		}
		out.WriteString("+" + base64.RawStdEncoding.EncodeToString(units))
		if at == len(l) || l[at] == '-' || digitOf(int(l[at])) >= 0 {
			out.WriteByte('-')
		}
	}
	return out.String()
}

// TestExamples are the chapter's, and the eighth of the whole.
func TestExamples(t *testing.T) {
	for _, e := range []struct {
		scalars []rune
		want    string
	}{
		{[]rune("Hi + \u00E4"), "Hi +- +AOQ-"},
		{[]rune{0x1F600}, "+2D3eAA-"},
	} {
		if got := writeAll(t, e.scalars); got != e.want {
			t.Errorf("%X: written %q, want %q", e.scalars, got, e.want)
		}
		checkThereAndBack(t, e.scalars)
	}
	// 16 bits are two digits, and four bits that wait for what comes behind: here the end.
	checkSet(t, outside, 0xE4, api.Put{Bytes: "+AO", S: within(4, 4, 0)})
	checkEnd(t, within(4, 4, 0), "Q-", api.OK)
	checkGet(t, outside, []byte("~"), api.Got{Err: api.Illegal, N: 1})
	checkGet(t, begun, []byte("!"), api.Got{Err: api.Illegal, N: 1})
	checkGet(t, within(4, 0, 0), []byte(" "), api.Got{N: 1, K: 1, A: ' '})
}

// TestKindsOfBytes holds the tests' own lists against the document's words, and Get against both.
func TestKindsOfBytes(t *testing.T) {
	const letters = "abcdefghijklmnopqrstuvwxyz"
	const base64Digits = "ABCDEFGHIJKLMNOPQRSTUVWXYZ" + letters + "0123456789+/"
	plain := letters + strings.ToUpper(letters) + "0123456789" + "'(),-./:?" + " \t\n\r"
	itself := plain + "!\"#$%&*;<=>@[]^_`{|}"
	for c := range 256 {
		one := []byte{byte(c)}
		if isPlain(c) != bytes.Contains([]byte(plain), one) {
			t.Errorf("%02X: plain: %v", c, isPlain(c))
		}
		if standsForItself(c) != bytes.Contains([]byte(itself), one) {
			t.Errorf("%02X: stands for itself: %v", c, standsForItself(c))
		}
		if d := bytes.Index([]byte(base64Digits), one); digitOf(c) != d {
			t.Errorf("%02X: digit %d, want %d", c, digitOf(c), d)
		}
		want := api.Got{Err: api.Illegal, N: 1}
		if bytes.Contains([]byte(itself), one) {
			want = api.Got{N: 1, K: 1, A: rune(c)}
		} else if c == '+' {
			want = api.Got{N: 1, S: begun}
		}
		checkGet(t, outside, one, want)
	}
}

// someNumbers are ints around all edges, and those that are small once their higher bits are lost.
var someNumbers = []int{math.MinInt, math.MinInt + 1, math.MinInt + 2, math.MinInt32, -1 << 16, -256, -255, -254, -64, -63, -32, -16, -15, -3, -2, -1,
	0, 1, 2, 3, 4, 5, 6, 7, 8, 9, 10, 11, 12, 13, 14, 15, 16, 17, 18, 31, 32, 33, 63, 64, 65, 255, 256, 257, 258, 1 << 16, 1<<16 + 1, math.MaxInt32, 1 << 32, 1<<32 + 1, 1<<32 + 2, 1<<32 + 15, math.MaxInt}

// someHeld are runes around the surrogates, and around all other edges.
var someHeld = []rune{math.MinInt32, math.MinInt32 + 0xD800, -0xD800, -1, 0, 1, 'A', 0x3FF, 0xD7FF, 0xD800, 0xD801, 0xDABC, 0xDBFE, 0xDBFF, 0xDC00, 0xDC01, 0xDFFF, 0xE000, 0xFFFD, 0xFFFF, 0x10000, 0x1D800, 0x10FFFF, 0x110000, math.MaxInt32}

// someAcc are numbers around the powers that matter.
func someAcc() []uint32 {
	l := []uint32{0, 1, 2, 3, math.MaxUint32, math.MaxUint32 - 1}
	for bits := 1; bits < 32; bits++ {
		l = append(l, 1<<bits-1, 1<<bits, 1<<bits+1)
	}
	slices.Sort(l)
	return slices.Compact(l)
}

// isState says it in the document's words, apart from the program.
func isState(s api.State) bool {
	if s.Mode == 0 || s.Mode == 2 {
		return s.Bits == 0 && s.Acc == 0 && s.Held == 0
	}
	return s.Mode == 1 && s.Bits >= 0 && s.Bits <= 15 && float64(s.Acc) < math.Pow(2, float64(s.Bits)) && (s.Held == 0 || s.Held/0x400 == 0x36)
}

// isWritingState says it in the document's words, apart from the program.
func isWritingState(s api.State) bool { return isState(s) && s.Held == 0 && s.Bits < 6 && s.Mode != 2 }

// someStates are states that are of UTF-7 and that are not, with every edge of a field beside every one of another.
func someStates(yield func(api.State) bool) {
	acc := someAcc()
	for _, mode := range someNumbers {
		for _, bits := range someNumbers {
			for _, a := range acc {
				for _, held := range someHeld {
					if (mode < -1 || mode > 3) && (a > 1 || held != 0 && held != 0xD800) {
						continue
					}
					if !yield(api.State{Mode: mode, Bits: bits, Acc: a, Held: held}) {
						return
					}
				}
			}
		}
	}
}

// TestStates is promise 5.1's Fits, and who answers ErrState: ahead of all else, with nothing beside it.
func TestStates(t *testing.T) {
	for s := range someStates {
		if utf7.Fits(s) != isState(s) {
			t.Errorf("Fits(%+v) = %v", s, utf7.Fits(s))
		}
		if !isState(s) {
			checkGet(t, s, nil, api.Got{Err: api.ErrState})
			checkGet(t, s, []byte("A"), api.Got{Err: api.ErrState})
			checkGet(t, s, []byte("~"), api.Got{Err: api.ErrState})
		} else {
			checkGet(t, s, nil, api.Got{Err: api.More})
			checkGet(t, s, []byte{}, api.Got{Err: api.More})
			checkGet(t, s, []byte("A"), wantGet(s, []byte("A")))
			checkGet(t, s, []byte("~"), wantGet(s, []byte("~")))
		}
		if !isWritingState(s) {
			for _, u := range []rune{'A', '+', 0xE4, 0x1F600, 0xD800, -1, 0x110000} {
				checkSet(t, s, u, api.Put{Err: api.ErrState})
			}
			checkEnd(t, s, "", api.ErrState)
		}
		stopIfFailed(t)
	}
}

// TestStatesWrittenOut has the edges of the states one by one.
func TestStatesWrittenOut(t *testing.T) {
	for _, s := range []api.State{
		{}, {Mode: 2}, {Mode: 1}, {Mode: 1, Bits: 1}, {Mode: 1, Bits: 1, Acc: 1}, {Mode: 1, Bits: 5, Acc: 31}, {Mode: 1, Bits: 6, Acc: 63}, {Mode: 1, Bits: 15},
		{Mode: 1, Bits: 15, Acc: 32767}, {Mode: 1, Held: 0xD800}, {Mode: 1, Held: 0xDBFF}, {Mode: 1, Bits: 15, Acc: 32767, Held: 0xDBFF},
	} {
		if !utf7.Fits(s) {
			t.Errorf("Fits(%+v) = false", s)
		}
	}
	for _, s := range []api.State{
		{Mode: -1}, {Mode: 3}, {Bits: 1}, {Bits: 4}, {Bits: -1}, {Acc: 1}, {Held: 0xD800}, {Mode: 2, Bits: 1}, {Mode: 2, Bits: 6, Acc: 1}, {Mode: 2, Acc: 1}, {Mode: 2, Held: 0xD800},
		{Mode: 1, Bits: -1}, {Mode: 1, Bits: 16}, {Mode: 1, Acc: 1}, {Mode: 1, Bits: 1, Acc: 2}, {Mode: 1, Bits: 5, Acc: 32}, {Mode: 1, Bits: 15, Acc: 32768}, {Mode: 1, Bits: 15, Acc: 1 << 31},
		{Mode: 1, Held: 1}, {Mode: 1, Held: -1}, {Mode: 1, Held: 0xD7FF}, {Mode: 1, Held: 0xDC00}, {Mode: 1, Held: 0x1F600},
	} {
		if utf7.Fits(s) {
			t.Errorf("Fits(%+v) = true", s)
		}
		checkGet(t, s, []byte("A"), api.Got{Err: api.ErrState})
		checkGet(t, s, nil, api.Got{Err: api.ErrState})
		checkSet(t, s, 'A', api.Put{Err: api.ErrState})
		checkSet(t, s, 0xD800, api.Put{Err: api.ErrState})
		checkEnd(t, s, "", api.ErrState)
	}
	// These are for reading alone.
	for _, s := range []api.State{{Mode: 2}, {Mode: 1, Bits: 6}, {Mode: 1, Bits: 15}, {Mode: 1, Bits: 4, Held: 0xD800}, {Mode: 1, Held: 0xDBFF}} {
		checkSet(t, s, 'A', api.Put{Err: api.ErrState})
		checkSet(t, s, 0x110000, api.Put{Err: api.ErrState})
		checkEnd(t, s, "", api.ErrState)
	}
}

// TestGetWrittenOut has the steps of promise 5.1 one by one.
func TestGetWrittenOut(t *testing.T) {
	wrong := api.Got{Err: api.Illegal, N: 1}
	for _, e := range []struct {
		s    api.State
		b    string
		want api.Got
	}{
		// Outside: plain, for itself but not plain, neither, and the beginning of a stretch; what is behind does not matter.
		{outside, "A", api.Got{N: 1, K: 1, A: 'A'}},
		{outside, "-", api.Got{N: 1, K: 1, A: '-'}},
		{outside, "/", api.Got{N: 1, K: 1, A: '/'}},
		{outside, "\t", api.Got{N: 1, K: 1, A: 9}},
		{outside, "!", api.Got{N: 1, K: 1, A: '!'}},
		{outside, "}~", api.Got{N: 1, K: 1, A: '}'}},
		{outside, "\\", wrong},
		{outside, "~", wrong},
		{outside, "\x00", wrong},
		{outside, "\x0B", wrong},
		{outside, "\x7F", wrong},
		{outside, "\x80", wrong},
		{outside, "\xFF", wrong},
		{outside, "+", api.Got{N: 1, S: begun}},
		{outside, "+-", api.Got{N: 1, S: begun}},
		{outside, "+~", api.Got{N: 1, S: begun}},
		// Just begun: - makes +, a digit is the first, all else is wrong, though it may stand for itself.
		{begun, "-", api.Got{N: 1, K: 1, A: '+'}},
		{begun, "A", api.Got{N: 1, S: within(6, 0, 0)}},
		{begun, "+", api.Got{N: 1, S: within(6, 62, 0)}},
		{begun, "/", api.Got{N: 1, S: within(6, 63, 0)}},
		{begun, " ", wrong},
		{begun, ".", wrong},
		{begun, "!", wrong},
		{begun, "~", wrong},
		{begun, "\xC3", wrong},
		// Within: a digit with fewer than 16 bits in all, with 16, and with more.
		{within(0, 0, 0), "Q", api.Got{N: 1, S: within(6, 16, 0)}},
		{within(9, 0x101, 0), "B", api.Got{N: 1, S: within(15, 0x4041, 0)}},
		{within(9, 0x101, 0xD83D), "B", api.Got{N: 1, S: within(15, 0x4041, 0xD83D)}},
		{within(10, 0x3, 0), "k", api.Got{N: 1, K: 1, A: 0xE4, S: within(0, 0, 0)}},
		{within(12, 0x0E, 0), "Q", api.Got{N: 1, K: 1, A: 0xE4, S: within(2, 0, 0)}},
		{within(15, 0x7FFF, 0), "/", api.Got{N: 1, K: 1, A: 0xFFFF, S: within(5, 31, 0)}},
		{within(10, 0, 0), "A", api.Got{N: 1, K: 1, A: 0, S: within(0, 0, 0)}},
		{within(10, 0x158, 0), "+", api.Got{N: 1, K: 1, A: 0x563E, S: within(0, 0, 0)}},
		// A unit of each kind, with nothing and with something held.
		{within(10, 0xD7FF>>6, 0), "/", api.Got{N: 1, K: 1, A: 0xD7FF, S: within(0, 0, 0)}},
		{within(10, 0xE000>>6, 0), "A", api.Got{N: 1, K: 1, A: 0xE000, S: within(0, 0, 0)}},
		{within(10, 0xD800>>6, 0), "A", api.Got{N: 1, S: within(0, 0, 0xD800)}},
		{within(10, 0xDBFF>>6, 0), "/", api.Got{N: 1, S: within(0, 0, 0xDBFF)}},
		{within(10, 0xDC00>>6, 0), "A", wrong},
		{within(10, 0xDFFF>>6, 0), "/", wrong},
		{within(10, 0x41>>6, 0xD83D), "B", wrong},
		{within(10, 0xD83D>>6, 0xD83D), "9", wrong},
		{within(10, 0xDE00>>6, 0xD83D), "A", api.Got{N: 1, K: 1, A: 0x1F600, S: within(0, 0, 0)}},
		{within(10, 0xDC00>>6, 0xD800), "A", api.Got{N: 1, K: 1, A: 0x10000, S: within(0, 0, 0)}},
		{within(10, 0xDFFF>>6, 0xDBFF), "/", api.Got{N: 1, K: 1, A: 0x10FFFF, S: within(0, 0, 0)}},
		// Within: what is no digit ends the stretch, if nothing but noughts, and fewer than six, is left over.
		{within(0, 0, 0), "-", api.Got{N: 1}},
		{within(5, 0, 0), "-", api.Got{N: 1}},
		{within(5, 0, 0), "!", api.Got{N: 1, K: 1, A: '!'}},
		{within(2, 0, 0), ".", api.Got{N: 1, K: 1, A: '.'}},
		{within(0, 0, 0), "\r", api.Got{N: 1, K: 1, A: '\r'}},
		{within(0, 0, 0), "~", wrong},
		{within(0, 0, 0), "\xE4", wrong},
		{within(6, 0, 0), "-", wrong},
		{within(15, 0, 0), "-", wrong},
		{within(6, 0, 0), " ", wrong},
		{within(1, 1, 0), "-", wrong},
		{within(4, 8, 0), "-", wrong},
		{within(4, 1, 0), " ", wrong},
		{within(0, 0, 0xD83D), "-", wrong},
		{within(0, 0, 0xD83D), " ", wrong},
		{within(4, 0, 0xDBFF), "~", wrong},
	} {
		checkGet(t, e.s, []byte(e.b), e.want)
	}
}

// TestGetOfEveryByte has every byte in every state within in which nothing is held, and with the first, the last and another surrogate held.
func TestGetOfEveryByte(t *testing.T) {
	for c := range 256 {
		checkGet(t, outside, []byte{byte(c)}, wantGet(outside, []byte{byte(c)}))
		checkGet(t, begun, []byte{byte(c)}, wantGet(begun, []byte{byte(c)}))
	}
	one := make([]byte, 1)
	for bits := range 16 {
		for acc := range uint32(1) << bits {
			for c := range 256 {
				one[0] = byte(c)
				s := within(bits, acc, 0)
				checkGet(t, s, one, wantGet(s, one))
				// Of the many only a part, in which all digits and all that is none come up, and every number of bits.
				if bits < 8 || (int(acc)+c)%8 == 0 {
					for _, held := range []rune{0xD800, 0xDABC, 0xDBFF} {
						s.Held = held
						checkGet(t, s, one, wantGet(s, one))
					}
				}
			}
			stopIfFailed(t)
		}
	}
}

// TestGetOfEveryUnit has every unit, cut at every number of bits, with nothing held; and every pair of surrogates.
func TestGetOfEveryUnit(t *testing.T) {
	const alphabet = "ABCDEFGHIJKLMNOPQRSTUVWXYZabcdefghijklmnopqrstuvwxyz0123456789+/"
	for unit := range uint32(1 << 16) {
		for left := range 6 {
			// The digit has the unit's last bits ahead, and others behind them, that are left over.
			own := 6 - left
			for _, behind := range []uint32{0, 1<<left - 1} {
				s := within(16-own, unit>>own, 0)
				d := unit<<left&63 | behind
				want := api.Got{N: 1, K: 1, A: rune(unit), S: within(left, behind, 0)}
				if unit >= 0xDC00 && unit <= 0xDFFF {
					want = api.Got{Err: api.Illegal, N: 1}
				} else if unit >= 0xD800 && unit <= 0xDBFF {
					want = api.Got{N: 1, S: within(left, behind, rune(unit))}
				}
				checkGet(t, s, []byte{alphabet[d]}, want)
			}
		}
		stopIfFailed(t)
	}
	for high := rune(0xD800); high <= 0xDBFF; high++ {
		for low := rune(0xDC00); low <= 0xDFFF; low++ {
			want := api.Got{N: 1, K: 1, A: 0x10000 + (high-0xD800)*0x400 + low - 0xDC00, S: within(0, 0, 0)}
			checkGet(t, within(10, uint32(low)>>6, high), []byte{alphabet[low&63]}, want)
		}
		stopIfFailed(t)
	}
}

// TestGetLooksAtOneByte: what is behind the first byte matters nowhere.
func TestGetLooksAtOneByte(t *testing.T) {
	states := []api.State{outside, begun, within(0, 0, 0), within(4, 0, 0), within(4, 3, 0), within(12, 0xD83, 0), within(12, 0xDE0, 0xD83D), within(14, 0, 0xD83D)}
	behind := []string{"-", "A", "+", " ", "~", "\x00", "\xFF", "--", "AAAAAAAA", "+-+-+-"}
	for _, s := range states {
		for c := range 256 {
			for _, rest := range behind {
				b := append([]byte{byte(c)}, rest...)
				checkGet(t, s, b, utf7.Get(s, b[:1]))
			}
		}
	}
}

// TestGetOfTexts reads whole texts, right ones, wrong ones, and such as end within a stretch.
func TestGetOfTexts(t *testing.T) {
	for _, e := range []struct {
		text string
		want []rune
		s    api.State
		err  api.Errno
	}{
		{"", nil, outside, api.OK},
		{"A+ImIDkQ.", []rune{'A', 0x2262, 0x391, '.'}, outside, api.OK},
		{"Hi Mom +Jjo--!", []rune("Hi Mom \u263A-!"), outside, api.OK},
		{"+ZeVnLIqe-", []rune{0x65E5, 0x672C, 0x8A9E}, outside, api.OK},
		{"Item 3 is +AKM-1.", []rune("Item 3 is \u00A31."), outside, api.OK},
		{"+-+-", []rune("++"), outside, api.OK},
		{"+ACE-", []rune("!"), outside, api.OK},
		{"+AEE-", []rune("A"), outside, api.OK},
		{"+ACs-", []rune("+"), outside, api.OK},
		{"+2D3eAA!", []rune{0x1F600, '!'}, outside, api.OK},
		{"+2D0-", nil, within(2, 0, 0xD83D), api.Illegal},
		{"+2D0", nil, within(2, 0, 0xD83D), api.OK},
		{"+AOR-", []rune{0xE4}, within(2, 1, 0), api.Illegal},
		{"+AOQ", []rune{0xE4}, within(2, 0, 0), api.OK},
		{"+AOQA-", []rune{0xE4}, within(8, 0, 0), api.Illegal},
		{"+A-", nil, within(6, 0, 0), api.Illegal},
		{"+", nil, begun, api.OK},
		{"+~", nil, begun, api.Illegal},
		{"\u00E4", nil, outside, api.Illegal},
		{"a~", []rune("a"), outside, api.Illegal},
	} {
		if got, s, err := readAll(e.text); !slices.Equal(got, e.want) || s != e.s || err != e.err {
			t.Errorf("%q: read %X, state %+v, error %d, want %X, %+v, %d", e.text, got, s, int(err), e.want, e.s, int(e.err))
		}
	}
}

// TestGetAfterIllegal: behind what is wrong reading goes on outside, whatever was held or left over.
func TestGetAfterIllegal(t *testing.T) {
	for _, text := range []string{"~AB", "+~AB", "+!AB", "+2D0-AB", "+2D0 AB", "+3AAAB", "+2DzYPAAB", "+AOR-AB", "+A-AB", "+AAA\x80AB", "+2D0AQAAB"} {
		var s api.State
		var read []rune
		wrong := 0
		for b := []byte(text); len(b) > 0; {
			g := utf7.Get(s, b)
			if g.N != 1 {
				t.Fatalf("%q: %+v", text, g)
			}
			if g.Err == api.Illegal {
				wrong++
				if g.S != outside {
					t.Fatalf("%q: the state behind Illegal is %+v", text, g.S)
				}
			}
			if g.K == 1 {
				read = append(read, g.A)
			}
			s = g.S
			b = b[1:]
		}
		if wrong != 1 || !strings.HasSuffix(string(read), "AB") || s != outside {
			t.Errorf("%q: read %X, %d wrong, state %+v", text, read, wrong, s)
		}
	}
}

// writingStates are all that Set and End take.
func writingStates() []api.State {
	l := []api.State{outside}
	for bits := range 6 {
		for acc := range uint32(1) << bits {
			l = append(l, within(bits, acc, 0))
		}
	}
	return l
}

// TestSetWrittenOut has the steps of promise 5.2 one by one.
func TestSetWrittenOut(t *testing.T) {
	for _, e := range []struct {
		s    api.State
		u    rune
		want api.Put
	}{
		// Outside: plain bytes, the +, and all else: what may stand for itself but is not plain, what is neither, scalars of one unit and of two.
		{outside, 'A', api.Put{Bytes: "A"}},
		{outside, '-', api.Put{Bytes: "-"}},
		{outside, '/', api.Put{Bytes: "/"}},
		{outside, '\n', api.Put{Bytes: "\n"}},
		{outside, '+', api.Put{Bytes: "+-"}},
		{outside, '!', api.Put{Bytes: "+AC", S: within(4, 1, 0)}},
		{outside, '}', api.Put{Bytes: "+AH", S: within(4, 13, 0)}},
		{outside, '~', api.Put{Bytes: "+AH", S: within(4, 14, 0)}},
		{outside, '\\', api.Put{Bytes: "+AF", S: within(4, 12, 0)}},
		{outside, 0, api.Put{Bytes: "+AA", S: within(4, 0, 0)}},
		{outside, 0x7F, api.Put{Bytes: "+AH", S: within(4, 15, 0)}},
		{outside, 0xE4, api.Put{Bytes: "+AO", S: within(4, 4, 0)}},
		{outside, 0xFFFF, api.Put{Bytes: "+//", S: within(4, 15, 0)}},
		{outside, 0x10000, api.Put{Bytes: "+2ADcA", S: within(2, 0, 0)}},
		{outside, 0x1F600, api.Put{Bytes: "+2D3eA", S: within(2, 0, 0)}},
		{outside, 0x10FFFF, api.Put{Bytes: "+2//f/", S: within(2, 3, 0)}},
		// Scalars that are a plain byte or + once their higher bits are lost.
		{outside, 0x141, api.Put{Bytes: "+AU", S: within(4, 1, 0)}},
		{outside, 0x1002B, api.Put{Bytes: "+2ADcK", S: within(2, 3, 0)}},
		// Within: a plain byte that is a digit or -, and one that is not, with bits left over and with none.
		{within(0, 0, 0), 'A', api.Put{Bytes: "-A"}},
		{within(0, 0, 0), '/', api.Put{Bytes: "-/"}},
		{within(0, 0, 0), '-', api.Put{Bytes: "--"}},
		{within(0, 0, 0), ' ', api.Put{Bytes: " "}},
		{within(0, 0, 0), '\'', api.Put{Bytes: "'"}},
		{within(4, 0, 0), 'z', api.Put{Bytes: "A-z"}},
		{within(4, 15, 0), '9', api.Put{Bytes: "8-9"}},
		{within(2, 3, 0), '-', api.Put{Bytes: "w--"}},
		{within(1, 1, 0), '.', api.Put{Bytes: "g."}},
		{within(5, 31, 0), '\t', api.Put{Bytes: "+\t"}},
		{within(2, 0, 0), '?', api.Put{Bytes: "A?"}},
		// Within: all else.
		{within(0, 0, 0), '+', api.Put{Bytes: "AC", S: within(4, 11, 0)}},
		{within(4, 4, 0), '+', api.Put{Bytes: "QAK", S: within(2, 3, 0)}},
		{within(4, 4, 0), '!', api.Put{Bytes: "QAI", S: within(2, 1, 0)}},
		{within(2, 3, 0), 0xFFFF, api.Put{Bytes: "///", S: within(0, 0, 0)}},
		{within(2, 3, 0), '~', api.Put{Bytes: "wB+", S: within(0, 0, 0)}},
		{within(0, 0, 0), 0x1F600, api.Put{Bytes: "2D3eA", S: within(2, 0, 0)}},
		{within(4, 15, 0), 0x10FFFF, api.Put{Bytes: "/b/9//", S: within(0, 0, 0)}},
		{within(5, 31, 0), 0x10FFFF, api.Put{Bytes: "/t/+//", S: within(1, 1, 0)}},
	} {
		checkSet(t, e.s, e.u, e.want)
	}
	checkEnd(t, outside, "", api.OK)
	checkEnd(t, within(0, 0, 0), "-", api.OK)
	checkEnd(t, within(1, 0, 0), "A-", api.OK)
	checkEnd(t, within(1, 1, 0), "g-", api.OK)
	checkEnd(t, within(2, 1, 0), "Q-", api.OK)
	checkEnd(t, within(2, 3, 0), "w-", api.OK)
	checkEnd(t, within(4, 0, 0), "A-", api.OK)
	checkEnd(t, within(4, 11, 0), "s-", api.OK)
	checkEnd(t, within(5, 31, 0), "+-", api.OK)
}

// TestSetOfNoScalar: None, and nothing beside it, in every state of writing.
func TestSetOfNoScalar(t *testing.T) {
	wrong := []rune{math.MinInt32, math.MinInt32 + 'A', -0x10000, -256, -'A', -1, 0x110000, 0x110000 + 'A', 0x200041, 0x1000041, math.MaxInt32 - 1, math.MaxInt32}
	for u := rune(0xD800); u <= 0xDFFF; u++ {
		wrong = append(wrong, u)
	}
	for _, s := range writingStates() {
		for _, u := range wrong {
			checkSet(t, s, u, api.Put{Err: api.None})
		}
	}
}

// TestSetInEveryState has all scalars below 800, and some above, in every state of writing; and End.
func TestSetInEveryState(t *testing.T) {
	for _, s := range writingStates() {
		for u := rune(0); u < 0x800; u++ {
			checkSet(t, s, u, wantSet(s, u))
		}
		for u := rune(0x7FF); u <= 0x10FFFF; u += 0x1003 {
			if isScalar(u) {
				checkSet(t, s, u, wantSet(s, u))
			}
		}
		for _, u := range []rune{0xD7FF, 0xE000, 0xFEFF, 0xFFFD, 0xFFFE, 0xFFFF, 0x10000, 0x10001, 0x1002B, 0x10041, 0x1F600, 0x10FFFE, 0x10FFFF} {
			checkSet(t, s, u, wantSet(s, u))
		}
		checkEnd(t, s, wantEnd(s), api.OK)
		stopIfFailed(t)
	}
}

// TestSetOfEveryScalar has every scalar outside, and in one state within, which goes round.
func TestSetOfEveryScalar(t *testing.T) {
	states := writingStates()[1:]
	for u := rune(0); u <= 0x10FFFF; u++ {
		if !isScalar(u) {
			continue
		}
		// By the library, as a whole: three digits or six, of which the last waits for the end.
		if p := utf7.Set(outside, u); !isPlain(int(u)) && u != '+' {
			last, _ := utf7.End(p.S)
			if p.Err != api.OK || p.Bytes+last != writeWhole([]rune{u}) || len(last) != 2 {
				t.Fatalf("Set(%+v, %X) = %s, and %q behind it", outside, u, told(p), last)
			}
		} else {
			checkSet(t, outside, u, wantSet(outside, u))
		}
		if u%4 == 0 || u < 0x3000 {
			s := states[int(u/4)%len(states)]
			checkSet(t, s, u, wantSet(s, u))
		}
		stopIfFailed(t)
	}
}

// TestSetIsBounded: no step puts out more than 8 bytes, and the state behind is one that Set takes.
func TestSetIsBounded(t *testing.T) {
	for _, s := range writingStates() {
		if last, err := utf7.End(s); err != api.OK || len(last) > 8 {
			t.Errorf("End(%+v) = %q, %d", s, last, int(err))
		}
		for u := rune(0); u <= 0x10FFFF; u++ {
			if u > 0x300 {
				u += 0x15
			}
			if !isScalar(u) {
				continue
			}
			if p := utf7.Set(s, u); p.Err != api.OK || len(p.Bytes) == 0 || len(p.Bytes) > 8 || !isWritingState(p.S) {
				t.Fatalf("Set(%+v, %X) = %s", s, u, told(p))
			}
		}
	}
}

// TestEveryScalarThereAndBack is promise 5.3 for each scalar alone, and between others.
func TestEveryScalarThereAndBack(t *testing.T) {
	around := []rune{'A', '-', '+', ' ', '!', 0xE4, 0xFFFF, 0x1F600}
	for u := rune(0); u <= 0x10FFFF; u++ {
		if isScalar(u) {
			checkThereAndBack(t, []rune{u})
			ahead, behind := around[u%8], around[u/8%8]
			checkThereAndBack(t, []rune{ahead, u, behind, u})
		}
	}
}

// TestAllShortTextsThereAndBack is promise 5.3 for all rows of up to four out of scalars of all sorts, also held against the library.
func TestAllShortTextsThereAndBack(t *testing.T) {
	sorts := []rune{'A', '9', '/', '-', ' ', '\'', '\n', '+', '!', '=', '~', '\\', 0, 0x7F, 0xE4, 0x20AC, 0xFFFF, 0x10000, 0x10FFFF}
	var row []rune
	var all func(left int)
	all = func(left int) {
		checkThereAndBack(t, row)
		if got, want := writeAll(t, row), writeWhole(row); got != want {
			t.Fatalf("%X: written %q, want %q", row, got, want)
		}
		if left == 0 {
			return
		}
		for _, u := range sorts {
			row = append(row, u)
			all(left - 1)
			row = row[:len(row)-1]
		}
	}
	all(4)
}

// someScalar is any, of all sorts alike.
func someScalar(r *rand.Rand) rune {
	for {
		var u rune
		switch r.IntN(5) {
		case 0:
			u = r.Int32N(0x80)
		case 1:
			u = r.Int32N(0x800)
		case 2:
			u = r.Int32N(0x10000)
		case 3:
			u = 0x10000 + r.Int32N(0x100000)
		case 4:
			u = []rune{'+', '-', '/', 'A', ' ', '!'}[r.IntN(6)]
		}
		if isScalar(u) {
			return u
		}
	}
}

// TestLongTextsThereAndBack is promise 5.3 for long rows of scalars, also held against the library.
func TestLongTextsThereAndBack(t *testing.T) {
	r := rand.New(rand.NewPCG(5, 7))
	for n := range 3000 {
		row := make([]rune, r.IntN(3+n/4))
		for i := range row {
			row[i] = someScalar(r)
		}
		checkThereAndBack(t, row)
		if got, want := writeAll(t, row), writeWhole(row); got != want {
			t.Fatalf("%X: written %q, want %q", row, got, want)
		}
	}
}

// TestGetOfAnyBytes reads bytes of all sorts from state to state, past what is wrong, as the tests' own reading does.
func TestGetOfAnyBytes(t *testing.T) {
	r := rand.New(rand.NewPCG(7, 5))
	const often = "++--AAABCDQw/2D3eAA !~\x80"
	for range 20000 {
		b := make([]byte, r.IntN(60))
		for i := range b {
			b[i] = often[r.IntN(len(often))]
			if r.IntN(20) == 0 {
				b[i] = byte(r.IntN(256))
			}
		}
		var s api.State
		for at := range b {
			want := wantGet(s, b[at:])
			checkGet(t, s, b[at:], want)
			if !utf7.Fits(want.S) {
				t.Errorf("%q: the state behind %d bytes is %+v", b, at+1, want.S)
			}
			s = want.S
		}
		stopIfFailed(t)
	}
}

// TestMemory: Get changes nothing of what is handed in, nor in the room behind it.
func TestMemory(t *testing.T) {
	all := []byte("+2D3eAA-x~+AOQ!\xFFtail")
	was := bytes.Clone(all)
	for _, s := range []api.State{outside, begun, within(0, 0, 0), within(4, 0, 0), within(10, 3, 0), within(15, 9, 0xD83D)} {
		for from := range all {
			for to := from; to <= len(all); to++ {
				utf7.Get(s, all[from:to])
			}
		}
	}
	if !bytes.Equal(all, was) {
		t.Errorf("what was handed in is now % X", all)
	}
}
