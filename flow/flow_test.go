package flow_test

import (
	"bytes"
	"fmt"
	"math"
	"math/rand/v2"
	"strings"
	"testing"

	"dragoman/flow"
)

// numbers are those that a call may be given: far beyond both ends, and all around them.
func numbers(most int) []int {
	l := []int{math.MinInt, math.MinInt + 1, math.MinInt32, -256}
	for n := -2; n <= most+2; n++ {
		l = append(l, n)
	}
	return append(l, most+256, math.MaxInt32, math.MaxInt32+1, math.MaxInt-1, math.MaxInt)
}

// sample is n bytes, no two neighbours of them alike, with all values of a byte if n is great enough.
func sample(n int) []byte {
	b := make([]byte, n)
	for k := range b {
		b[k] = byte(k*7 + 250)
	}
	return b
}

// ahead says in the document's words what Peek(n) answers behind at bytes of b.
func ahead(b []byte, at, n int) []byte {
	if n < 1 {
		return nil
	}
	if n > len(b)-at {
		return b[at:]
	}
	return b[at : at+n]
}

// checkIn holds an input against its bytes and the number of them that are taken (promises 2.1 and 2.3).
func checkIn(t *testing.T, what string, i *flow.In, b []byte, at int) {
	t.Helper()
	if i.At() != at || i.Left() != len(b)-at {
		t.Fatalf("%s: At %d, Left %d, want %d, %d", what, i.At(), i.Left(), at, len(b)-at)
	}
	if got := i.Peek(len(b)); !bytes.Equal(got, b[at:]) {
		t.Fatalf("%s: left are %x, want %x", what, got, b[at:])
	}
}

// checkOut holds an output against its room at first and what was laid (promises 2.2 and 2.3).
func checkOut(t *testing.T, what string, o *flow.Out, room int, laid string) {
	t.Helper()
	if got := o.Bytes(); string(got) != laid {
		t.Fatalf("%s: Bytes %x, want %x", what, got, laid)
	}
	if o.Room() != room-len(laid) {
		t.Fatalf("%s: Room %d, want %d", what, o.Room(), room-len(laid))
	}
}

// TestExamples are the chapter's.
func TestExamples(t *testing.T) {
	i := flow.NewIn([]byte("abc"))
	if got := string(i.Peek(2)); got != "ab" {
		t.Errorf("Peek(2) = %q", got)
	}
	if !i.Skip(2) {
		t.Error("Skip(2) is false")
	}
	if got := string(i.Peek(5)); got != "c" {
		t.Errorf("Peek(5) = %q", got)
	}
	if i.Skip(2) {
		t.Error("Skip(2) with one byte left is true")
	}
	checkIn(t, "at the end", i, []byte("abc"), 2)
	o := flow.NewOut(3)
	if !o.Put("ab") || o.Put("cd") || o.Room() != 1 || !o.Put("") {
		t.Errorf("room is %d", o.Room())
	}
	checkOut(t, "at the end", o, 3, "ab")
}

// TestNewIn is promise 2.1: of a new input nothing is taken.
func TestNewIn(t *testing.T) {
	for _, b := range [][]byte{nil, {}, {0}, {0xFF}, []byte("abc"), {0, 0, 0x80, 0xC3, 0xFF, 0}, sample(1000)} {
		checkIn(t, fmt.Sprintf("NewIn of %d bytes", len(b)), flow.NewIn(b), b, 0)
	}
}

// TestPeek is promise 2.1: Peek at every place, of every number, and nothing changes by it.
func TestPeek(t *testing.T) {
	for size := range 9 {
		b := sample(size)
		for at := range size + 1 {
			i := flow.NewIn(b)
			i.Skip(at)
			for _, n := range numbers(size) {
				if got, want := i.Peek(n), ahead(b, at, n); !bytes.Equal(got, want) {
					t.Errorf("%x at %d: Peek(%d) = %x, want %x", b, at, n, got, want)
				}
				checkIn(t, fmt.Sprintf("after Peek(%d)", n), i, b, at)
			}
		}
	}
}

// TestPeekAtEdges is promise 2.1 at the edges, with the answers written out.
func TestPeekAtEdges(t *testing.T) {
	i := flow.NewIn([]byte("wxyz"))
	i.Skip(1)
	for _, c := range []struct {
		n    int
		want string
	}{
		{math.MinInt, ""}, {-1, ""}, {0, ""}, {1, "x"}, {2, "xy"}, {3, "xyz"}, {4, "xyz"}, {5, "xyz"}, {math.MaxInt, "xyz"},
	} {
		if got := string(i.Peek(c.n)); got != c.want {
			t.Errorf("Peek(%d) = %q, want %q", c.n, got, c.want)
		}
	}
}

// TestSkip is promise 2.1: Skip at every place, of every number; what it refuses it does not take.
func TestSkip(t *testing.T) {
	for size := range 9 {
		b := sample(size)
		for at := range size + 1 {
			for _, n := range numbers(size) {
				i := flow.NewIn(b)
				i.Skip(at)
				want := n >= 0 && n <= size-at
				what := fmt.Sprintf("%x at %d: Skip(%d)", b, at, n)
				if got := i.Skip(n); got != want {
					t.Errorf("%s = %v", what, got)
				}
				if want {
					checkIn(t, what, i, b, at+n)
				} else {
					checkIn(t, what, i, b, at)
				}
			}
		}
	}
}

// TestSkipAtEdges is promise 2.1 at the edges, with the answers written out: one call behind the other.
func TestSkipAtEdges(t *testing.T) {
	i := flow.NewIn([]byte("abcde"))
	for _, c := range []struct {
		n        int
		ok       bool
		at, left int
	}{
		{-1, false, 0, 5}, {6, false, 0, 5}, {0, true, 0, 5}, {2, true, 2, 3}, {-1, false, 2, 3}, {4, false, 2, 3},
		{math.MaxInt, false, 2, 3}, {math.MinInt, false, 2, 3}, {3, true, 5, 0}, {0, true, 5, 0}, {1, false, 5, 0}, {-5, false, 5, 0},
	} {
		if got := i.Skip(c.n); got != c.ok || i.At() != c.at || i.Left() != c.left {
			t.Errorf("Skip(%d) = %v, At %d, Left %d, want %v", c.n, got, i.At(), i.Left(), c)
		}
	}
}

// TestInKeepsItsOwn is promise 2.1 and rule R4: what is handed to NewIn may be changed afterwards, and is not changed.
func TestInKeepsItsOwn(t *testing.T) {
	whole := []byte("abcdefgh")
	b := whole[2:5]
	i := flow.NewIn(b)
	copy(whole, "ABCDEFGH")
	checkIn(t, "after a change of what was handed in", i, []byte("cde"), 0)
	i.Skip(1)
	copy(whole, "########")
	checkIn(t, "after another", i, []byte("cde"), 1)
	_ = append(i.Peek(1), "!!!!"...)
	i.Skip(2)
	if string(whole) != "########" {
		t.Errorf("what was handed in is now %q", whole)
	}
}

// TestPeekIsNew is rule R4: what Peek answers shares no memory with the input, nor with another answer.
func TestPeekIsNew(t *testing.T) {
	i := flow.NewIn([]byte("abcd"))
	one, two := i.Peek(3), i.Peek(3)
	copy(one, "###")
	_ = append(one[:1], "!!!!!!!!"...)
	if string(two) != "abc" {
		t.Errorf("another answer is now %q", two)
	}
	checkIn(t, "after a change of an answer", i, []byte("abcd"), 0)
	none := i.Peek(0)
	_ = append(none[:cap(none)], "#"...)
	_ = append(none, "####"...)
	checkIn(t, "after a change behind an empty answer", i, []byte("abcd"), 0)
}

// TestNewOut is promise 2.2: room at first, none if it is below 0, and all of it however great.
func TestNewOut(t *testing.T) {
	for _, room := range numbers(8) {
		o := flow.NewOut(room)
		checkOut(t, fmt.Sprintf("NewOut(%d)", room), o, max(room, 0), "")
		if got, want := o.Put("a"), room >= 1; got != want {
			t.Errorf("NewOut(%d): Put of one byte = %v", room, got)
		}
		if !o.Put("") {
			t.Errorf("NewOut(%d): Put of nothing is false", room)
		}
	}
}

// TestNoRoom is promise 2.2: an output with no room takes nothing, and nothing is what it takes.
func TestNoRoom(t *testing.T) {
	for _, room := range []int{0, -1, -7, math.MinInt} {
		o := flow.NewOut(room)
		for _, s := range []string{"", "a", "", "abc", "\x00"} {
			if got := o.Put(s); got != (s == "") {
				t.Errorf("NewOut(%d): Put(%q) = %v", room, s, got)
			}
			checkOut(t, fmt.Sprintf("NewOut(%d)", room), o, 0, "")
		}
	}
}

// TestPut is promise 2.2: behind every number of bytes, of every number of bytes; what is refused is not laid.
func TestPut(t *testing.T) {
	for room := range 8 {
		for first := range room + 1 {
			for size := range room + 4 {
				o := flow.NewOut(room)
				laid, s := string(sample(first)), strings.Repeat("\xFE", size)
				o.Put(laid)
				want := size <= room-first
				what := fmt.Sprintf("room %d, %d laid: Put of %d", room, first, size)
				if got := o.Put(s); got != want {
					t.Errorf("%s = %v", what, got)
				}
				if want {
					laid += s
				}
				checkOut(t, what, o, room, laid)
			}
		}
	}
}

// TestPutAtEdges is promise 2.2 at the edges, with the answers written out: one call behind the other.
func TestPutAtEdges(t *testing.T) {
	o := flow.NewOut(5)
	for _, c := range []struct {
		s    string
		ok   bool
		room int
		laid string
	}{
		{"", true, 5, ""}, {"abcdef", false, 5, ""}, {"a\x00", true, 3, "a\x00"}, {"wxyz", false, 3, "a\x00"}, {"", true, 3, "a\x00"},
		{"\xE2\x82\xAC", true, 0, "a\x00\xE2\x82\xAC"}, {"b", false, 0, "a\x00\xE2\x82\xAC"}, {"", true, 0, "a\x00\xE2\x82\xAC"},
	} {
		if got := o.Put(c.s); got != c.ok || o.Room() != c.room || string(o.Bytes()) != c.laid {
			t.Errorf("Put(%q) = %v, Room %d, Bytes %q, want %v", c.s, got, o.Room(), o.Bytes(), c)
		}
	}
}

// TestBytesIsNew is rule R4: what Bytes answers shares no memory with the output, nor with another answer.
func TestBytesIsNew(t *testing.T) {
	o := flow.NewOut(100)
	o.Put("abcde")
	one, two := o.Bytes(), o.Bytes()
	copy(one, "#####")
	_ = append(one[:2], "!!!!!!!!"...)
	if string(two) != "abcde" {
		t.Errorf("another answer is now %q", two)
	}
	checkOut(t, "after a change of an answer", o, 100, "abcde")
	tail := append(o.Bytes(), "####"...)
	o.Put("fghij")
	checkOut(t, "after more was laid", o, 100, "abcdefghij")
	if string(tail) != "abcde####" || string(two) != "abcde" {
		t.Errorf("answers are now %q, %q", tail, two)
	}
}

// TestApart is promises 2.1 and 2.2: inputs and outputs know nothing of one another.
func TestApart(t *testing.T) {
	b := []byte("abcd")
	i, j := flow.NewIn(b), flow.NewIn(b)
	i.Skip(3)
	checkIn(t, "one input", i, b, 3)
	checkIn(t, "the other", j, b, 0)
	o, p := flow.NewOut(4), flow.NewOut(4)
	o.Put("abc")
	checkOut(t, "one output", o, 4, "abc")
	checkOut(t, "the other", p, 4, "")
}

// TestInOrders is promises 2.1 and 2.3: all rows of four calls at small inputs, each call held against the document's words.
func TestInOrders(t *testing.T) {
	for size := range 4 {
		b := sample(size)
		calls := size + 3 // Skip of -1 up to size+1
		for row := range calls * calls * calls * calls {
			i, at, skipped := flow.NewIn(b), 0, []byte(nil)
			for k, rest := 0, row; k < 4; k, rest = k+1, rest/calls {
				n := rest%calls - 1
				next := i.Peek(n)
				what := fmt.Sprintf("%d bytes, row %d, call %d", size, row, k)
				if want := ahead(b, at, n); !bytes.Equal(next, want) {
					t.Fatalf("%s: Peek(%d) = %x, want %x", what, n, next, want)
				}
				ok := i.Skip(n)
				if ok != (n >= 0 && n <= size-at) {
					t.Fatalf("%s: Skip(%d) = %v", what, n, ok)
				}
				if ok {
					at += n
					skipped = append(skipped, next...)
				}
				checkIn(t, what, i, b, at)
			}
			if got := append(skipped, i.Peek(i.Left())...); !bytes.Equal(got, b) {
				t.Fatalf("%d bytes, row %d: skipped and left are %x, want %x", size, row, got, b)
			}
		}
	}
}

// TestOutOrders is promises 2.2 and 2.3: all rows of five texts into small rooms.
func TestOutOrders(t *testing.T) {
	texts := []string{"", "a", "\x80\xFF", "xyz", "0123456"}
	for room := -1; room <= 8; room++ {
		for row := range 5 * 5 * 5 * 5 * 5 {
			o, laid := flow.NewOut(room), ""
			for k, rest := 0, row; k < 5; k, rest = k+1, rest/5 {
				s := texts[rest%5]
				ok := len(laid)+len(s) <= max(room, 0)
				what := fmt.Sprintf("room %d, row %d, call %d: Put(%q)", room, row, k, s)
				if got := o.Put(s); got != ok {
					t.Fatalf("%s = %v", what, got)
				}
				if ok {
					laid += s
				}
				checkOut(t, what, o, max(room, 0), laid)
			}
		}
	}
}

// TestLongRows is promises 2.1 to 2.3 over long inputs and great rooms: many calls of sizes that are drawn from a fixed seed.
func TestLongRows(t *testing.T) {
	r := rand.New(rand.NewPCG(2, 16))
	for round := range 60 {
		size := r.IntN(3000)
		b := sample(size)
		i, o, at := flow.NewIn(b), flow.NewOut(size), 0
		var laid []byte
		for call := range 200 {
			n := r.IntN(60) - 8
			what := fmt.Sprintf("round %d, call %d: %d", round, call, n)
			next := i.Peek(n)
			if want := ahead(b, at, n); !bytes.Equal(next, want) {
				t.Fatalf("%s: Peek = %x, want %x", what, next, want)
			}
			if !o.Put(string(next)) {
				t.Fatalf("%s: Put of what was taken is false", what)
			}
			laid = append(laid, next...)
			if !i.Skip(len(next)) || i.Skip(i.Left()+1) || o.Put(strings.Repeat("#", o.Room()+1)) {
				t.Fatalf("%s: a bound does not hold", what)
			}
			at += len(next)
			checkIn(t, what, i, b, at)
			checkOut(t, what, o, size, string(laid))
		}
		if !bytes.Equal(append(o.Bytes(), i.Peek(size)...), b) {
			t.Fatalf("round %d: what was carried and what is left are not the input", round)
		}
	}
}

// TestGreatOnes is promises 2.1 and 2.2 beyond every limit of api: 2^21 bytes, by pieces.
func TestGreatOnes(t *testing.T) {
	const size = 1 << 21
	b := sample(size)
	i, o := flow.NewIn(b), flow.NewOut(size-1)
	for i.Left() > 0 {
		piece := i.Peek(4099)
		if o.Put(string(piece)) != (i.At()+len(piece) < size) {
			t.Fatalf("at %d: a piece of %d", i.At(), len(piece))
		}
		if !i.Skip(len(piece)) {
			t.Fatalf("at %d: Skip(%d) is false", i.At(), len(piece))
		}
	}
	last := size % 4099
	checkIn(t, "at the end", i, b, size)
	checkOut(t, "at the end", o, size-1, string(b[:size-last]))
}
