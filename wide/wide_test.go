package wide_test

import (
	"bytes"
	"encoding/binary"
	"fmt"
	"math"
	"math/rand/v2"
	"slices"
	"strings"
	"testing"
	"unicode/utf16"

	"dragoman/api"
	"dragoman/wide"
)

// kinds are the eight, in the document's order.
var kinds = []int{api.UTF16BE, api.UTF16LE, api.UTF16, api.UTF32BE, api.UTF32LE, api.UTF32, api.UCS2BE, api.UCS2LE}

// What is said of the kinds, apart from the program.
func isMarked(kind int) bool { return kind == api.UTF16 || kind == api.UTF32 }
func isUTF16(kind int) bool  { return kind == api.UTF16BE || kind == api.UTF16LE || kind == api.UTF16 }
func isUTF32(kind int) bool  { return kind == api.UTF32BE || kind == api.UTF32LE || kind == api.UTF32 }
func isUCS2(kind int) bool   { return kind == api.UCS2BE || kind == api.UCS2LE }

func unitSize(kind int) int {
	if isUTF32(kind) {
		return 4
	}
	return 2
}

// isScalar says it in the document's words, apart from the program.
func isScalar(u int64) bool { return 0 <= u && u < 0xD800 || 0xDFFF < u && u < 0x110000 }

// states are all that a kind has.
func states(kind int) []api.State {
	if isMarked(kind) {
		return []api.State{{}, {Mode: 1}, {Mode: 2}}
	}
	return []api.State{{}}
}

// order is the library's order of bytes of a kind in a state, where no mark is at the front.
func order(kind int, s api.State) binary.ByteOrder {
	if kind == api.UTF16LE || kind == api.UTF32LE || kind == api.UCS2LE || s.Mode == 2 {
		return binary.LittleEndian
	}
	return binary.BigEndian
}

// read is the number of the first unit, wider than the program's, so that nothing is below 0.
func read(o binary.ByteOrder, size int, b []byte) int64 {
	if size == 4 {
		return int64(o.Uint32(b))
	}
	return int64(o.Uint16(b))
}

// write is the bytes of units' numbers.
func write(o binary.ByteOrder, size int, numbers ...uint32) string {
	var b []byte
	for _, n := range numbers {
		unit := make([]byte, size)
		if size == 4 {
			o.PutUint32(unit, n)
		} else {
			o.PutUint16(unit, uint16(n))
		}
		b = append(b, unit...)
	}
	return string(b)
}

// wantGet is what Get answers by the document, of a kind and a state that are right.
func wantGet(kind int, s api.State, b []byte) api.Got {
	size := unitSize(kind)
	if len(b) < size {
		return api.Got{Err: api.More}
	}
	if isMarked(kind) && s.Mode == 0 {
		if read(binary.BigEndian, size, b) == 0xFEFF {
			return api.Got{N: size, S: api.State{Mode: 1}}
		}
		if read(binary.LittleEndian, size, b) == 0xFEFF {
			return api.Got{N: size, S: api.State{Mode: 2}}
		}
		return wantGet(kind, api.State{Mode: 1}, b)
	}
	o := order(kind, s)
	n := read(o, size, b)
	switch {
	case isScalar(n):
		return api.Got{N: size, K: 1, A: rune(n), S: s}
	case isUTF16(kind) && n < 0xDC00 && len(b) < 4:
		return api.Got{Err: api.More}
	case isUTF16(kind) && n < 0xDC00:
		if u := utf16.DecodeRune(rune(n), rune(read(o, size, b[2:]))); u != 0xFFFD {
			return api.Got{N: 4, K: 1, A: u, S: s}
		}
	}
	return api.Got{Err: api.Illegal, N: size, S: s}
}

// wantSet is what Set answers by the document, of a kind and a state that are right.
func wantSet(kind int, s api.State, u rune) api.Put {
	if !isScalar(int64(u)) || isUCS2(kind) && u > 0xFFFF {
		return api.Put{Err: api.None}
	}
	if isMarked(kind) && s.Mode == 0 {
		front := "\xFE\xFF"
		if kind == api.UTF32 {
			front = "\x00\x00\xFE\xFF"
		}
		p := wantSet(kind, api.State{Mode: 1}, u)
		return api.Put{Bytes: front + p.Bytes, S: p.S}
	}
	numbers := []uint32{uint32(u)}
	if isUTF16(kind) && u > 0xFFFF {
		high, low := utf16.EncodeRune(u)
		numbers = []uint32{uint32(high), uint32(low)}
	}
	return api.Put{Bytes: write(order(kind, s), unitSize(kind), numbers...), S: s}
}

func checkGet(t *testing.T, kind int, s api.State, b []byte, want api.Got) {
	if got := wide.Get(kind, s, b); got != want {
		t.Helper()
		t.Errorf("Get(%d, %+v, % .40X) = %+v, want %+v", kind, s, b, got, want)
	}
}

// told is what was put out, in words.
func told(p api.Put) string { return fmt.Sprintf("{%d, % X, %+v}", int(p.Err), p.Bytes, p.S) }

func checkSet(t *testing.T, kind int, s api.State, u rune, want api.Put) {
	if got := wide.Set(kind, s, u); got != want {
		t.Helper()
		t.Errorf("Set(%d, %+v, %X) = %s, want %s", kind, s, u, told(got), told(want))
	}
}

// stopIfFailed ends a test of very many inputs at the first that is wrong.
func stopIfFailed(t *testing.T) {
	if t.Failed() {
		t.FailNow()
	}
}

// turned is the bytes with those of each unit the other way round; what is less than a unit at the end stays.
func turned(b []byte, size int) []byte {
	all := bytes.Clone(b)
	for ; len(b) >= size; b = b[size:] {
		at := len(all) - len(b)
		slices.Reverse(all[at : at+size])
	}
	return all
}

// TestExamples are the chapter's, and the fifth of the whole.
func TestExamples(t *testing.T) {
	checkGet(t, api.UTF16LE, api.State{}, []byte("\x3D\xD8\x00\xDE"), api.Got{N: 4, K: 1, A: 0x1F600})
	checkGet(t, api.UTF16LE, api.State{}, []byte("\x00\xDC"), api.Got{Err: api.Illegal, N: 2})
	checkGet(t, api.UTF16LE, api.State{}, []byte("\x3D\xD8"), api.Got{Err: api.More})
	checkGet(t, api.UTF16, api.State{}, []byte("\xFF\xFE"), api.Got{N: 2, S: api.State{Mode: 2}})
	checkGet(t, api.UTF16, api.State{}, []byte("\xFF\xFE\x41\x00"), api.Got{N: 2, S: api.State{Mode: 2}})
	checkGet(t, api.UTF16, api.State{Mode: 2}, []byte("\x41\x00"), api.Got{N: 2, K: 1, A: 0x41, S: api.State{Mode: 2}})
	checkSet(t, api.UTF32, api.State{}, 0x41, api.Put{Bytes: "\x00\x00\xFE\xFF\x00\x00\x00\x41", S: api.State{Mode: 1}})
	checkSet(t, api.UCS2BE, api.State{}, 0x1F600, api.Put{Err: api.None})
}

// noKinds are numbers that are no kind, and kinds of other layers.
func noKinds() []int {
	l := []int{math.MinInt, math.MinInt + 1, math.MinInt32, -1 << 16, math.MaxInt32, math.MaxInt32 + 1, math.MaxInt - 1, math.MaxInt,
		// Those that are one of the eight once their higher bits are lost.
		1<<8 + api.UTF16BE, 1<<16 + api.UTF16, 1<<32 + api.UTF32, math.MinInt + api.UCS2LE}
	for kind := -300; kind <= 300; kind++ {
		if !slices.Contains(kinds, kind) {
			l = append(l, kind)
		}
	}
	return l
}

// TestHas is promise 4.1, with the kinds' numbers as they stand in api.
func TestHas(t *testing.T) {
	if !slices.Equal(kinds, []int{3, 4, 5, 6, 7, 8, 9, 10}) {
		t.Fatalf("the kinds are %v", kinds)
	}
	for _, kind := range kinds {
		if !wide.Has(kind) {
			t.Errorf("Has(%d) = false", kind)
		}
	}
	for _, kind := range noKinds() {
		if wide.Has(kind) {
			t.Errorf("Has(%d) = true", kind)
		}
	}
}

// TestNoKind is promise 4.1: ErrKind comes ahead of all else, with nothing beside it.
func TestNoKind(t *testing.T) {
	for _, kind := range noKinds() {
		for _, s := range []api.State{{}, {Mode: 1}, {Mode: 2}, {Mode: 3}, {Mode: -1}, {Bits: 1}, {Acc: 1}, {Held: 1}} {
			for _, b := range []string{"", "\x00", "\x00A", "\xFE\xFF", "\xDC\x00", "\x00\x00\x00A", "\xFF\xFF\xFF\xFF\xFF"} {
				checkGet(t, kind, s, []byte(b), api.Got{Err: api.ErrKind})
			}
			for _, u := range []rune{-1, 0, 0x41, 0xD800, 0xFEFF, 0x1F600, 0x110000} {
				checkSet(t, kind, s, u, api.Put{Err: api.ErrKind})
			}
		}
	}
}

// TestNoState is promise 4.1: ErrState comes ahead of More, Illegal and None, with nothing beside it.
func TestNoState(t *testing.T) {
	for _, kind := range kinds {
		for _, s := range noStates(kind) {
			for _, b := range []string{"", "\x00", "\x00A", "A\x00", "\xFE\xFF", "\xFF\xFE", "\xDC\x00", "\x00\xDC", "\xD8\x3D", "\x00\x00\xFE\xFF", "\xFF\xFE\x00\x00", "\x00\x00\x00A", "A\x00\x00\x00", "\xFF\xFF\xFF\xFF\xFF"} {
				checkGet(t, kind, s, []byte(b), api.Got{Err: api.ErrState})
			}
			checkGet(t, kind, s, nil, api.Got{Err: api.ErrState})
			for _, u := range []rune{math.MinInt32, -1, 0, 0x41, 0xD800, 0xDFFF, 0xFEFF, 0xFFFF, 0x1F600, 0x110000, math.MaxInt32} {
				checkSet(t, kind, s, u, api.Put{Err: api.ErrState})
			}
		}
	}
}

// noStates are some that are none of a kind's.
func noStates(kind int) []api.State {
	var l []api.State
	for _, mode := range []int{math.MinInt, math.MinInt + 1, math.MinInt + 2, -3, -2, -1, 3, 4, 5, 1 << 8, 1<<8 + 1, 1 << 16, 1 << 32, 1<<32 + 1, 1<<32 + 2, math.MaxInt} {
		l = append(l, api.State{Mode: mode})
	}
	if !isMarked(kind) {
		l = append(l, api.State{Mode: 1}, api.State{Mode: 2})
	}
	for _, mode := range []int{-1, 0, 1, 2, 3} {
		for _, bits := range []int{math.MinInt, -1, 1, 2, 16, math.MaxInt} {
			l = append(l, api.State{Mode: mode, Bits: bits})
		}
		for _, acc := range []uint32{1, 2, 0xFEFF, 1 << 31, math.MaxUint32} {
			l = append(l, api.State{Mode: mode, Acc: acc})
		}
		for _, held := range []rune{math.MinInt32, -1, 1, 0x41, 0xD800, 0xFEFF, math.MaxInt32} {
			l = append(l, api.State{Mode: mode, Held: held})
		}
		l = append(l, api.State{Mode: mode, Bits: 1, Acc: 1, Held: 0xD800}, api.State{Mode: mode, Bits: -1, Acc: 1})
	}
	return l
}

// TestMore is promise 4.2 and 4.3: no bytes, and fewer than a unit, in every kind and state; the state behind it is not told.
func TestMore(t *testing.T) {
	for _, kind := range kinds {
		for _, s := range states(kind) {
			checkGet(t, kind, s, nil, api.Got{Err: api.More})
			for _, unit := range []string{"\x00\x00\x00\x00", "\x00\x00\x00A", "A\x00\x00\x00", "\xFE\xFF\x00\x00", "\xFF\xFE\x00\x00", "\x00\x00\xFE\xFF", "\xDC\x00\xDC\x00", "\xFF\xFF\xFF\xFF"} {
				for n := range unitSize(kind) {
					// The bytes of a list end where it ends, whatever lies in the room behind.
					checkGet(t, kind, s, []byte(unit)[:n], api.Got{Err: api.More})
				}
			}
		}
	}
}

// TestGetShort is promise 4.2, with the answers of UTF-16 and UCS-2 written out, the highest byte first; the others are turned about.
func TestGetShort(t *testing.T) {
	illegal := api.Got{Err: api.Illegal, N: 2}
	one := func(u rune) api.Got { return api.Got{N: 2, K: 1, A: u} }
	two := func(u rune) api.Got { return api.Got{N: 4, K: 1, A: u} }
	more := api.Got{Err: api.More}
	for _, c := range []struct {
		b           string
		utf16, ucs2 api.Got
	}{
		{"\x00\x00", one(0), one(0)},
		{"\x00\x41", one(0x41), one(0x41)},
		{"\x41\x00", one(0x4100), one(0x4100)},
		{"\x20\xAC\x00\x41", one(0x20AC), one(0x20AC)},
		{"\x20\xAC\xDC\x00", one(0x20AC), one(0x20AC)},
		{"\x20\xAC\xD8", one(0x20AC), one(0x20AC)},
		{"\x80\x00", one(0x8000), one(0x8000)},
		{"\xD7\xFF\xDC\x00", one(0xD7FF), one(0xD7FF)},
		{"\xE0\x00\xDC\x00", one(0xE000), one(0xE000)},
		{"\xFE\xFF", one(0xFEFF), one(0xFEFF)}, // no mark of these kinds
		{"\xFF\xFE", one(0xFFFE), one(0xFFFE)},
		{"\xFF\xFF", one(0xFFFF), one(0xFFFF)},
		// A low surrogate first.
		{"\xDC\x00", illegal, illegal},
		{"\xDF\xFF", illegal, illegal},
		{"\xDC\x00\xD8", illegal, illegal},
		{"\xDC\x00\xD8\x00", illegal, illegal},
		{"\xDE\x00\xDE\x00", illegal, illegal},
		// A high one at the end.
		{"\xD8\x00", more, illegal},
		{"\xDB\xFF", more, illegal},
		{"\xD8\x3D\xDE", more, illegal},
		{"\xD8\x3D\x00", more, illegal},
		// A high one, and then what is no low one.
		{"\xD8\x3D\x00\x41", illegal, illegal},
		{"\xD8\x3D\xD8\x3D", illegal, illegal},
		{"\xD8\x3D\xD8\x3D\xDE\x00", illegal, illegal},
		{"\xD8\x3D\xDB\xFF", illegal, illegal},
		{"\xD8\x3D\xE0\x00", illegal, illegal},
		{"\xD8\x3D\xFE\xFF", illegal, illegal},
		{"\xD8\x3D\x00\xDE", illegal, illegal},
		// A pair.
		{"\xD8\x00\xDC\x00", two(0x10000), illegal},
		{"\xD8\x00\xDF\xFF", two(0x103FF), illegal},
		{"\xD8\x01\xDC\x00", two(0x10400), illegal},
		{"\xD8\x3D\xDE\x00", two(0x1F600), illegal},
		{"\xD8\x3D\xDE\x00\xDE", two(0x1F600), illegal},
		{"\xD8\x3D\xDE\x00\xD8\x3D\xDE\x00", two(0x1F600), illegal},
		{"\xDB\xFF\xDC\x00", two(0x10FC00), illegal},
		{"\xDB\xFF\xDF\xFF", two(0x10FFFF), illegal},
	} {
		checkOrders(t, []byte(c.b), [2]int{api.UTF16BE, api.UTF16LE}, c.utf16)
		checkOrders(t, []byte(c.b), [2]int{api.UCS2BE, api.UCS2LE}, c.ucs2)
		checkModes(t, api.UTF16, []byte(c.b), c.utf16)
	}
}

// TestGetLong is promise 4.2, with the answers of UTF-32 written out.
func TestGetLong(t *testing.T) {
	illegal := api.Got{Err: api.Illegal, N: 4}
	one := func(u rune) api.Got { return api.Got{N: 4, K: 1, A: u} }
	for _, c := range []struct {
		b    string
		want api.Got
	}{
		{"\x00\x00\x00\x00", one(0)},
		{"\x00\x00\x00\x41", one(0x41)},
		{"\x00\x00\x20\xAC", one(0x20AC)},
		{"\x00\x00\xD7\xFF", one(0xD7FF)},
		{"\x00\x00\xE0\x00", one(0xE000)},
		{"\x00\x00\xFE\xFF", one(0xFEFF)},
		{"\x00\x00\xFF\xFE", one(0xFFFE)},
		{"\x00\x00\xFF\xFF", one(0xFFFF)},
		{"\x00\x01\x00\x00", one(0x10000)},
		{"\x00\x01\xF6\x00", one(0x1F600)},
		{"\x00\x01\xD8\x00", one(0x1D800)},
		{"\x00\x10\xFF\xFF", one(0x10FFFF)},
		// Surrogates, a pair of them too.
		{"\x00\x00\xD8\x00", illegal},
		{"\x00\x00\xDB\xFF", illegal},
		{"\x00\x00\xDC\x00", illegal},
		{"\x00\x00\xDF\xFF", illegal},
		{"\x00\x00\xD8\x3D\x00\x00\xDE\x00", illegal},
		// Beyond 10FFFF.
		{"\x00\x11\x00\x00", illegal},
		{"\x00\x11\x00\x41", illegal},
		{"\x00\x20\x00\x00", illegal},
		{"\x01\x00\x00\x00", illegal},
		{"\x01\x00\x00\x41", illegal},
		{"\x41\x00\x00\x00", illegal},
		{"\xD8\x3D\xDE\x00", illegal},
		{"\x7F\xFF\xFF\xFF", illegal},
		// The highest bit is set.
		{"\x80\x00\x00\x00", illegal},
		{"\x80\x00\x00\x41", illegal},
		{"\x80\x10\xFF\xFF", illegal},
		{"\xFF\xFE\x00\x00", illegal},
		{"\xFF\xFF\xFF\xFF", illegal},
	} {
		for _, tail := range []string{"", "\x00", "A", "\x00\x00\x00", "\x00\x00\x00\x41", "\xFF\xFF\xFF\xFF\xFF\xFF\xFF\xFF"} {
			b := []byte(c.b + tail)
			checkOrders(t, b, [2]int{api.UTF32BE, api.UTF32LE}, c.want)
			checkModes(t, api.UTF32, b, c.want)
		}
	}
}

// checkOrders checks bytes as ..BE, and turned about as ..LE.
func checkOrders(t *testing.T, b []byte, both [2]int, want api.Got) {
	t.Helper()
	checkGet(t, both[0], api.State{}, b, want)
	checkGet(t, both[1], api.State{}, turned(b, unitSize(both[1])), want)
}

// checkModes checks bytes in the modes of a kind with a mark: the answer is that of ..BE, and the state stays, unless it is More.
func checkModes(t *testing.T, kind int, b []byte, want api.Got) {
	t.Helper()
	in := func(mode int) api.Got {
		g := want
		if g.Err != api.More {
			g.S = api.State{Mode: mode}
		}
		return g
	}
	checkGet(t, kind, api.State{Mode: 1}, b, in(1))
	checkGet(t, kind, api.State{Mode: 2}, turned(b, unitSize(kind)), in(2))
	first := read(binary.BigEndian, unitSize(kind), b)
	if first != 0xFEFF && first != 0xFFFE && first != 0xFFFE0000 {
		checkGet(t, kind, api.State{}, b, in(1))
	}
}

// TestMark is promise 4.3: in Mode 0 the mark in either order, what is no mark, and the state behind each.
func TestMark(t *testing.T) {
	for _, c := range []struct {
		kind, mode int
		b          string
		want       api.Got
	}{
		{api.UTF16, 0, "\xFE", api.Got{Err: api.More}},
		{api.UTF16, 0, "\xFF", api.Got{Err: api.More}},
		{api.UTF16, 0, "\xFE\xFF", api.Got{N: 2, S: api.State{Mode: 1}}},
		{api.UTF16, 0, "\xFF\xFE", api.Got{N: 2, S: api.State{Mode: 2}}},
		{api.UTF16, 0, "\xFF\xFE\x00\x00", api.Got{N: 2, S: api.State{Mode: 2}}},
		{api.UTF16, 0, "\xFE\xFF\xFE\xFF", api.Got{N: 2, S: api.State{Mode: 1}}},
		{api.UTF16, 0, "\xFE\xFF\xDC\x00", api.Got{N: 2, S: api.State{Mode: 1}}},
		{api.UTF16, 0, "\x00\x00\xFE\xFF", api.Got{N: 2, K: 1, S: api.State{Mode: 1}}},
		{api.UTF16, 0, "\x00A", api.Got{N: 2, K: 1, A: 0x41, S: api.State{Mode: 1}}},
		{api.UTF16, 0, "A\x00", api.Got{N: 2, K: 1, A: 0x4100, S: api.State{Mode: 1}}},
		{api.UTF16, 0, "\xFE\xFE", api.Got{N: 2, K: 1, A: 0xFEFE, S: api.State{Mode: 1}}},
		{api.UTF16, 0, "\xFF\xFF", api.Got{N: 2, K: 1, A: 0xFFFF, S: api.State{Mode: 1}}},
		{api.UTF16, 0, "\xDC\x00", api.Got{Err: api.Illegal, N: 2, S: api.State{Mode: 1}}},
		{api.UTF16, 0, "\xD8\x3D", api.Got{Err: api.More}},
		{api.UTF16, 0, "\xD8\x3D\xDE\x00", api.Got{N: 4, K: 1, A: 0x1F600, S: api.State{Mode: 1}}},
		{api.UTF16, 0, "\xD8\x3D\xFE\xFF", api.Got{Err: api.Illegal, N: 2, S: api.State{Mode: 1}}},
		// Behind the front it is a scalar like another, or the number of another.
		{api.UTF16, 1, "\xFE\xFF", api.Got{N: 2, K: 1, A: 0xFEFF, S: api.State{Mode: 1}}},
		{api.UTF16, 1, "\xFF\xFE", api.Got{N: 2, K: 1, A: 0xFFFE, S: api.State{Mode: 1}}},
		{api.UTF16, 2, "\xFF\xFE", api.Got{N: 2, K: 1, A: 0xFEFF, S: api.State{Mode: 2}}},
		{api.UTF16, 2, "\xFE\xFF", api.Got{N: 2, K: 1, A: 0xFFFE, S: api.State{Mode: 2}}},
		{api.UTF16, 1, "\xDC\x00", api.Got{Err: api.Illegal, N: 2, S: api.State{Mode: 1}}},
		{api.UTF16, 2, "\x00\xDC", api.Got{Err: api.Illegal, N: 2, S: api.State{Mode: 2}}},
		{api.UTF16, 2, "\x3D\xD8\x41\x00", api.Got{Err: api.Illegal, N: 2, S: api.State{Mode: 2}}},
		{api.UTF16, 2, "\x3D\xD8\x00\xDE", api.Got{N: 4, K: 1, A: 0x1F600, S: api.State{Mode: 2}}},
		{api.UTF16, 2, "\x3D\xD8\x00", api.Got{Err: api.More}},

		{api.UTF32, 0, "\xFE\xFF", api.Got{Err: api.More}},
		{api.UTF32, 0, "\xFF\xFE\x00", api.Got{Err: api.More}},
		{api.UTF32, 0, "\x00\x00\xFE", api.Got{Err: api.More}},
		{api.UTF32, 0, "\x00\x00\xFE\xFF", api.Got{N: 4, S: api.State{Mode: 1}}},
		{api.UTF32, 0, "\xFF\xFE\x00\x00", api.Got{N: 4, S: api.State{Mode: 2}}},
		{api.UTF32, 0, "\xFF\xFE\x00\x00A", api.Got{N: 4, S: api.State{Mode: 2}}},
		{api.UTF32, 0, "\x00\x00\x00A", api.Got{N: 4, K: 1, A: 0x41, S: api.State{Mode: 1}}},
		{api.UTF32, 0, "A\x00\x00\x00", api.Got{Err: api.Illegal, N: 4, S: api.State{Mode: 1}}},
		{api.UTF32, 0, "\x00\x00\xFF\xFE", api.Got{N: 4, K: 1, A: 0xFFFE, S: api.State{Mode: 1}}},
		{api.UTF32, 0, "\xFE\xFF\x00\x00", api.Got{Err: api.Illegal, N: 4, S: api.State{Mode: 1}}},
		{api.UTF32, 0, "\xFF\xFE\x00\x01", api.Got{Err: api.Illegal, N: 4, S: api.State{Mode: 1}}},
		{api.UTF32, 0, "\x00\x01\xFE\xFF", api.Got{N: 4, K: 1, A: 0x1FEFF, S: api.State{Mode: 1}}},
		{api.UTF32, 0, "\x00\x00\xD8\x00", api.Got{Err: api.Illegal, N: 4, S: api.State{Mode: 1}}},
		{api.UTF32, 1, "\x00\x00\xFE\xFF", api.Got{N: 4, K: 1, A: 0xFEFF, S: api.State{Mode: 1}}},
		{api.UTF32, 1, "\xFF\xFE\x00\x00", api.Got{Err: api.Illegal, N: 4, S: api.State{Mode: 1}}},
		{api.UTF32, 2, "\xFF\xFE\x00\x00", api.Got{N: 4, K: 1, A: 0xFEFF, S: api.State{Mode: 2}}},
		{api.UTF32, 2, "\x00\x00\xFE\xFF", api.Got{Err: api.Illegal, N: 4, S: api.State{Mode: 2}}},
		{api.UTF32, 2, "A\x00\x00\x00", api.Got{N: 4, K: 1, A: 0x41, S: api.State{Mode: 2}}},
		{api.UTF32, 2, "\x00\xD8\x00\x00", api.Got{Err: api.Illegal, N: 4, S: api.State{Mode: 2}}},
	} {
		checkGet(t, c.kind, api.State{Mode: c.mode}, []byte(c.b), c.want)
	}
	// The kinds without a mark read it as they read all else.
	for _, kind := range kinds {
		if !isMarked(kind) {
			b := write(order(kind, api.State{}), unitSize(kind), 0xFEFF)
			checkGet(t, kind, api.State{}, []byte(b), api.Got{N: len(b), K: 1, A: 0xFEFF})
		}
	}
}

// TestGetEveryShort is promise 4.2 and 4.3: every unit of two bytes, alone, cut, and with others behind.
func TestGetEveryShort(t *testing.T) {
	tails := []string{"", "\x00", "\xD8", "\xDC", "\x00\x00", "\x00A", "A\x00", "\xDC\x00", "\x00\xDC", "\xDF\xFF", "\xFF\xDF", "\xDB\xFF", "\xFF\xDB", "\xD8\x00\xDC\x00", "\xE0\x00", "\x00\xE0", "\xFE\xFF", "\xFF\xFE", "\xDE\x00\xDE"}
	for _, kind := range kinds {
		if isUTF32(kind) {
			continue
		}
		for _, s := range states(kind) {
			for n := range 1 << 16 {
				for _, tail := range tails {
					b := append([]byte{byte(n >> 8), byte(n)}, tail...)
					checkGet(t, kind, s, b, wantGet(kind, s, b))
				}
				stopIfFailed(t)
			}
		}
	}
}

// TestGetEveryPair is promise 4.2: each high surrogate, and behind it each unit around and among the low ones.
func TestGetEveryPair(t *testing.T) {
	for _, kind := range []int{api.UTF16BE, api.UTF16LE, api.UTF16} {
		for _, s := range states(kind) {
			for high := uint32(0xD800); high < 0xDC00; high++ {
				for next := uint32(0xDBFE); next <= 0xE001; next++ {
					b := []byte(write(order(kind, s), 2, high, next))
					checkGet(t, kind, s, b, wantGet(kind, s, b))
				}
				stopIfFailed(t)
			}
		}
	}
}

// TestGetEveryLong is promise 4.2 and 4.3: all numbers of four bytes up to well beyond 10FFFF, and at every step of 2^12 and around every power of 2 of the others.
func TestGetEveryLong(t *testing.T) {
	for _, kind := range []int{api.UTF32BE, api.UTF32LE, api.UTF32} {
		for _, s := range states(kind) {
			check := func(n uint32) {
				b := []byte(write(order(kind, s), 4, n))
				checkGet(t, kind, s, b, wantGet(kind, s, b))
				stopIfFailed(t)
			}
			for n := range uint32(0x120000) {
				check(n)
			}
			for n := range uint32(1 << 20) {
				check(n<<12 | n&0xFFF)
			}
			for bit := range 32 {
				for d := range uint32(5) {
					check(1<<bit + d - 2)
				}
			}
		}
	}
}

// TestTurned is promise 4.2 and 4.4: ..LE is ..BE with each unit's bytes turned about, of any bytes and any number.
func TestTurned(t *testing.T) {
	r := rand.New(rand.NewPCG(4, 2))
	for _, both := range [][2]int{{api.UTF16BE, api.UTF16LE}, {api.UTF32BE, api.UTF32LE}, {api.UCS2BE, api.UCS2LE}} {
		size := unitSize(both[0])
		for range 100000 {
			b := someBytes(r, size)
			checkGet(t, both[1], api.State{}, turned(b, size), wide.Get(both[0], api.State{}, b))
			u := someNumber(r)
			p := wide.Set(both[0], api.State{}, u)
			p.Bytes = string(turned([]byte(p.Bytes), size))
			checkSet(t, both[1], api.State{}, u, p)
			stopIfFailed(t)
		}
	}
	// Mode 1 and 2 of a kind with a mark are these, but for the state.
	for _, three := range [][3]int{{api.UTF16, api.UTF16BE, api.UTF16LE}, {api.UTF32, api.UTF32BE, api.UTF32LE}} {
		for range 100000 {
			mode := 1 + r.IntN(2)
			s := api.State{Mode: mode}
			b := someBytes(r, unitSize(three[0]))
			g := wide.Get(three[mode], api.State{}, b)
			if g.Err != api.More {
				g.S = s
			}
			checkGet(t, three[0], s, b, g)
			u := someNumber(r)
			p := wide.Set(three[mode], api.State{}, u)
			if p.Err == api.OK {
				p.S = s
			}
			checkSet(t, three[0], s, u, p)
			stopIfFailed(t)
		}
	}
}

// someBytes are units of some numbers of which many mean something, and perhaps less than a unit behind them.
func someBytes(r *rand.Rand, size int) []byte {
	var b []byte
	for range r.IntN(4) {
		n := r.Uint32()
		switch r.IntN(6) {
		case 0:
			n = 0xD800 + r.Uint32N(0x800)
		case 1:
			n = 0xD800 + r.Uint32N(0x400)
		case 2:
			n = r.Uint32N(0x110000)
		case 3:
			n = []uint32{0xFEFF, 0xFFFE, 0xFFFE0000, 0, 0xFFFF, 0x10FFFF, 0x110000}[r.IntN(7)]
		}
		b = append(b, write(binary.BigEndian, size, n)...)
	}
	for range r.IntN(size) {
		b = append(b, byte(r.IntN(256)))
	}
	return b
}

// someNumber is a scalar, mostly.
func someNumber(r *rand.Rand) rune {
	switch r.IntN(5) {
	case 0:
		return rune(r.Uint32())
	case 1:
		return 0xD7F0 + r.Int32N(0x820)
	case 2:
		return r.Int32N(0x10000)
	}
	return r.Int32N(0x110000)
}

// TestSet is promise 4.4, with the answers written out.
func TestSet(t *testing.T) {
	for _, c := range []struct {
		kind, mode int
		u          rune
		want       string
		behind     int
	}{
		{api.UTF16BE, 0, 0x41, "\x00\x41", 0},
		{api.UTF16BE, 0, 0x20AC, "\x20\xAC", 0},
		{api.UTF16BE, 0, 0xFEFF, "\xFE\xFF", 0},
		{api.UTF16BE, 0, 0xFFFF, "\xFF\xFF", 0},
		{api.UTF16BE, 0, 0x10000, "\xD8\x00\xDC\x00", 0},
		{api.UTF16BE, 0, 0x1F600, "\xD8\x3D\xDE\x00", 0},
		{api.UTF16BE, 0, 0x10FFFF, "\xDB\xFF\xDF\xFF", 0},
		{api.UTF16LE, 0, 0x41, "\x41\x00", 0},
		{api.UTF16LE, 0, 0x20AC, "\xAC\x20", 0},
		{api.UTF16LE, 0, 0x1F600, "\x3D\xD8\x00\xDE", 0},
		{api.UTF16, 0, 0x41, "\xFE\xFF\x00\x41", 1},
		{api.UTF16, 0, 0x1F600, "\xFE\xFF\xD8\x3D\xDE\x00", 1},
		{api.UTF16, 0, 0xFEFF, "\xFE\xFF\xFE\xFF", 1},
		{api.UTF16, 1, 0x41, "\x00\x41", 1},
		{api.UTF16, 1, 0x1F600, "\xD8\x3D\xDE\x00", 1},
		{api.UTF16, 1, 0xFEFF, "\xFE\xFF", 1},
		{api.UTF16, 2, 0x41, "\x41\x00", 2},
		{api.UTF16, 2, 0x1F600, "\x3D\xD8\x00\xDE", 2},
		{api.UTF16, 2, 0xFEFF, "\xFF\xFE", 2},
		{api.UTF32BE, 0, 0x41, "\x00\x00\x00\x41", 0},
		{api.UTF32BE, 0, 0x1F600, "\x00\x01\xF6\x00", 0},
		{api.UTF32BE, 0, 0x10FFFF, "\x00\x10\xFF\xFF", 0},
		{api.UTF32LE, 0, 0x41, "\x41\x00\x00\x00", 0},
		{api.UTF32LE, 0, 0x1F600, "\x00\xF6\x01\x00", 0},
		{api.UTF32, 0, 0x41, "\x00\x00\xFE\xFF\x00\x00\x00\x41", 1},
		{api.UTF32, 0, 0xFEFF, "\x00\x00\xFE\xFF\x00\x00\xFE\xFF", 1},
		{api.UTF32, 0, 0x1F600, "\x00\x00\xFE\xFF\x00\x01\xF6\x00", 1},
		{api.UTF32, 1, 0x1F600, "\x00\x01\xF6\x00", 1},
		{api.UTF32, 2, 0x1F600, "\x00\xF6\x01\x00", 2},
		{api.UCS2BE, 0, 0, "\x00\x00", 0},
		{api.UCS2BE, 0, 0x20AC, "\x20\xAC", 0},
		{api.UCS2BE, 0, 0xFFFF, "\xFF\xFF", 0},
		{api.UCS2LE, 0, 0x20AC, "\xAC\x20", 0},
		{api.UCS2LE, 0, 0xFEFF, "\xFF\xFE", 0},
	} {
		checkSet(t, c.kind, api.State{Mode: c.mode}, c.u, api.Put{Bytes: c.want, S: api.State{Mode: c.behind}})
	}
}

// TestSetNone is promise 4.4: numbers that are no scalars, in every kind and state, and those above FFFF in UCS-2.
func TestSetNone(t *testing.T) {
	for _, kind := range kinds {
		for _, s := range states(kind) {
			for _, u := range []rune{math.MinInt32, math.MinInt32 + 0x41, -0x10000, -0x41, -1, 0xD800, 0xD83D, 0xDBFF, 0xDC00, 0xDE00, 0xDFFF, 0x110000, 0x1FFFFF, 0x1000041, math.MaxInt32} {
				checkSet(t, kind, s, u, api.Put{Err: api.None})
			}
			for _, u := range []rune{0x10000, 0x10041, 0x1D800, 0x1F600, 0x1FEFF, 0xFFFFF, 0x100000, 0x10FFFF} {
				if isUCS2(kind) {
					checkSet(t, kind, s, u, api.Put{Err: api.None})
				} else if got := wide.Set(kind, s, u); got.Err != api.OK {
					t.Errorf("Set(%d, %+v, %X) = %s", kind, s, u, told(got))
				}
			}
		}
	}
}

// TestSetEvery is promise 4.4: every scalar, and the numbers beside them.
func TestSetEvery(t *testing.T) {
	for _, kind := range kinds {
		for _, s := range states(kind) {
			check := func(u rune) {
				checkSet(t, kind, s, u, wantSet(kind, s, u))
				stopIfFailed(t)
			}
			for u := rune(-0x1000); u < 0x120000; u++ {
				check(u)
			}
			for bit := range 32 {
				for d := range uint32(5) {
					check(rune(uint32(1)<<bit + d - 2))
				}
			}
		}
	}
}

// TestGetOfSet is promise 4.5: for every scalar that has a place, in every kind and state, whatever follows.
func TestGetOfSet(t *testing.T) {
	tails := []string{"", "\x00", "\xDC", "\xDC\x00", "\x00\xDC\x00", "\xD8\x3D\xDE\x00", "\xFF\xFF\xFF\xFF\xFF"}
	for _, kind := range kinds {
		for _, s := range states(kind) {
			for u := rune(0); u <= 0x10FFFF; u++ {
				p := wide.Set(kind, s, u)
				if p.Err == api.None && (!isScalar(int64(u)) || isUCS2(kind) && u > 0xFFFF) {
					continue
				}
				if p.Err != api.OK || len(p.Bytes) > 8 {
					t.Fatalf("Set(%d, %+v, %X) = %s", kind, s, u, told(p))
				}
				some := tails
				if u >= 0x12000 {
					some = tails[int(u)%len(tails):][:1] // one each, in turn: there are many
				}
				for _, tail := range some {
					checkBack(t, kind, s, u, p, tail)
				}
				stopIfFailed(t)
			}
		}
	}
}

// checkBack reads what was written, the mark in front of it first, if there is one.
func checkBack(t *testing.T, kind int, s api.State, u rune, p api.Put, tail string) {
	b, taken := []byte(p.Bytes+tail), 0
	if isMarked(kind) && s.Mode == 0 {
		g := wide.Get(kind, s, b)
		if want := (api.Got{N: unitSize(kind), S: p.S}); g != want {
			t.Errorf("the mark of Set(%d, %+v, %X) = %+v, want %+v", kind, s, u, g, want)
			return
		}
		s, taken = g.S, g.N
	}
	checkGet(t, kind, s, b[taken:], api.Got{N: len(p.Bytes) - taken, K: 1, A: u, S: p.S})
}

// TestRows is promise 4.5: scalars written one behind the other, from state to state, are read as these from state to state.
func TestRows(t *testing.T) {
	r := rand.New(rand.NewPCG(4, 5))
	for _, kind := range kinds {
		for range 2000 {
			var b []byte
			var want, got []rune
			s := api.State{}
			for range r.IntN(10) {
				u := someNumber(r)
				if p := wide.Set(kind, s, u); p.Err == api.OK {
					b, s, want = append(b, p.Bytes...), p.S, append(want, u)
				}
			}
			for s = (api.State{}); len(b) > 0; {
				g := wide.Get(kind, s, b)
				if g.Err != api.OK {
					t.Fatalf("kind %d: Get of % X = %+v", kind, b, g)
				}
				if g.K == 1 {
					got = append(got, g.A)
				}
				b, s = b[g.N:], g.S
			}
			if !slices.Equal(got, want) {
				t.Errorf("kind %d: %X are read as %X", kind, want, got)
			}
		}
	}
}

// TestAnyBytes is promise 4.2, 4.3 and 4.5: any bytes in every kind and state, none taken beyond four or beyond the end.
func TestAnyBytes(t *testing.T) {
	r := rand.New(rand.NewPCG(4, 3))
	for _, kind := range kinds {
		for _, s := range states(kind) {
			for range 50000 {
				b := someBytes(r, unitSize(kind))
				g := wide.Get(kind, s, b)
				if want := wantGet(kind, s, b); g != want {
					t.Fatalf("Get(%d, %+v, % X) = %+v, want %+v", kind, s, b, g, want)
				}
				if g.N < 0 || g.N > 4 || g.N > len(b) || (g.Err == api.More) != (g.N == 0) {
					t.Errorf("Get(%d, %+v, % X) takes %d", kind, s, b, g.N)
				}
			}
		}
	}
}

// TestLong is rule R6: bytes beyond every limit are read from the front alike.
func TestLong(t *testing.T) {
	b := []byte(strings.Repeat("\xD8\x3D\xDE\x00", 1+api.MaxIn/2))
	checkGet(t, api.UTF16BE, api.State{}, b, api.Got{N: 4, K: 1, A: 0x1F600})
	checkGet(t, api.UTF16, api.State{}, b, api.Got{N: 4, K: 1, A: 0x1F600, S: api.State{Mode: 1}})
	checkGet(t, api.UCS2BE, api.State{}, b, api.Got{Err: api.Illegal, N: 2})
	checkGet(t, api.UTF32BE, api.State{}, b, api.Got{Err: api.Illegal, N: 4})
}

// TestMemory is rule R4: what is handed in stays, also in the room behind a list's end.
func TestMemory(t *testing.T) {
	whole := []byte("\xFE\xFF\xD8\x3D\xDE\x00\xFF\xFE\x00\x00\x00A")
	kept := bytes.Clone(whole)
	for _, kind := range kinds {
		for _, s := range states(kind) {
			for n := range len(whole) + 1 {
				for from := range n + 1 {
					wide.Get(kind, s, whole[from:n])
				}
			}
		}
	}
	if !bytes.Equal(whole, kept) {
		t.Errorf("% X are % X afterwards", kept, whole)
	}
}
