package codec_test

import (
	"bytes"
	"fmt"
	"math"
	"math/rand/v2"
	"slices"
	"sync"
	"testing"

	"dragoman/api"
	"dragoman/codec"
	"dragoman/names"
	"dragoman/translit"
	"dragoman/viet"
)

// in is the state of a mode.
func in(mode int) api.State { return api.State{Mode: mode} }

// within is a state of UTF-7 within a stretch.
func within(bits int, acc uint32, held rune) api.State {
	return api.State{Mode: 1, Bits: bits, Acc: acc, Held: held}
}

// statesOf is states of a kind: all, but of UTF-7, which has too many, the edges of each number of bits.
func statesOf(kind int) []api.State {
	all := []api.State{{}}
	switch layerOf(kind) {
	case "wide, marked", "iso2022":
		all = append(all, in(1), in(2))
	case "hz":
		all = append(all, in(1))
	case "viet":
		for _, u := range letters {
			all = append(all, api.State{Held: u})
		}
	case "utf7":
		all = append(all, in(2))
		for bits := range 16 {
			for _, held := range []rune{0, 0xD800, 0xD83D, 0xDBFF} {
				accs := []uint32{0, 1, 1 << bits / 2, 1<<bits - 1}
				if bits == 0 {
					accs = accs[:1]
				}
				for _, acc := range accs {
					all = append(all, within(bits, acc, held))
				}
			}
		}
	}
	return all
}

// writingStatesOf is those of them in which the kind is written, and of UTF-7 all there are.
func writingStatesOf(kind int) []api.State {
	if layerOf(kind) != "utf7" {
		return statesOf(kind)
	}
	all := []api.State{{}}
	for bits := range 6 {
		for acc := range uint32(1) << bits {
			all = append(all, within(bits, acc, 0))
		}
	}
	return all
}

// grid is states of all sorts, most of them of no kind.
func grid() []api.State {
	var all []api.State
	for _, mode := range []int{0, 1, 2, 3, 4, -1, math.MinInt, 1 << 32} {
		for _, bits := range []int{0, 1, 5, 6, 15, 16, 64, -1, math.MaxInt} {
			for _, acc := range []uint32{0, 1, 31, 32, 32767, 32768, math.MaxUint32} {
				for _, held := range []rune{0, 'A', 'B', 0xC0, 0xC2, 0x1B0, 0x300, 0xD7FF, 0xD800, 0xDBFF, 0xDC00, 0x1EA4, -1, math.MaxInt32} {
					all = append(all, api.State{Mode: mode, Bits: bits, Acc: acc, Held: held})
				}
			}
		}
	}
	return all
}

// strangeScalars is numbers at the edges of what is a scalar, and beyond.
var strangeScalars = []rune{-1, -128, -0x80000000, math.MaxInt32, 0x110000, 0x10FFFF, 0xD7FF, 0xD800, 0xDBFF, 0xDC00, 0xDFFF, 0xE000, 0xFFFD, 0xFFFF, 0x10000, 0, 0x7F, 0x80, 0xFF, 0x100}

// sampleScalars is scalars that some kinds have places for, and some have not.
var sampleScalars = []rune{'A', '\\', '~', '+', '-', '\n', 0x0E, 0x0F, 0x1B, 0x80, 0xA0, 0xA5, 0xC0, 0xE4, 0x102, 0x203E, 0x20A9, 0x20AC, 0x300, 0x301, 0x411, 0x5D0, 0x627, 0xE01, 0x1EA4, 0x2019, 0x2022, 0x2500, 0x3042, 0x4E00, 0x554A, 0xAC00, 0xD7A3, 0xFEFF, 0xFF21, 0xFF3C, 0xFF5E, 0xFF71, 0x1F600}

// telling is bytes with which something begins, goes on or ends in some kind.
var telling = []byte{0x00, 0x0A, 0x0E, 0x0F, 0x1B, 0x20, 0x21, 0x22, 0x24, 0x28, 0x29, 0x2B, 0x2D, 0x30, 0x40, 0x41, 0x42, 0x43, 0x4A, 0x5C, 0x61, 0x77, 0x7B, 0x7D, 0x7E, 0x7F, 0x80, 0x82, 0x88, 0x8E, 0x9F, 0xA0, 0xA1, 0xA4, 0xB0, 0xBF, 0xC2, 0xCC, 0xD8, 0xDC, 0xDF, 0xE0, 0xEC, 0xED, 0xEF, 0xF0, 0xF4, 0xFC, 0xFE, 0xFF}

// eachKind runs a test for each kind at once.
func eachKind(t *testing.T, test func(t *testing.T, kind int)) {
	for _, kind := range kinds() {
		t.Run(fmt.Sprint(kind), func(t *testing.T) {
			t.Parallel()
			test(t, kind)
		})
	}
}

// end is all that End answers.
func end(kind int, s api.State) ended {
	last, behind, err := codec.End(kind, s)
	return ended{last, behind, err}
}

// sameGot holds a step against the model's, and against the bounds of promise 24.5.
func sameGot(t *testing.T, kind int, s api.State, b []byte) {
	t.Helper()
	g := codec.Get(kind, s, b)
	if want := modelGet(kind, s, b); g != want {
		t.Fatalf("Get(%d, %+v, % X): %+v, want %+v", kind, s, b, g, want)
	}
	if g.N > 4 || g.N > len(b) || g.Err == api.More && len(b) >= 4 {
		t.Fatalf("Get(%d, %+v, % X): %+v: beyond the bounds", kind, s, b, g)
	}
}

// samePut holds what is put out against the model's, and against the bounds of promise 24.5.
func samePut(t *testing.T, kind int, s api.State, u rune) {
	t.Helper()
	p := codec.Set(kind, s, u)
	if want := modelSet(kind, s, u); p != want {
		t.Fatalf("Set(%d, %+v, %X): %+v, want %+v", kind, s, u, p, want)
	}
	if len(p.Bytes) > 16 {
		t.Fatalf("Set(%d, %+v, %X): %d bytes", kind, s, u, len(p.Bytes))
	}
}

// sameWrite holds a list's bytes against the model's.
func sameWrite(t *testing.T, kind int, s api.State, l []rune) {
	t.Helper()
	if p, want := codec.Write(kind, s, l), modelWrite(kind, s, l); p != want {
		t.Fatalf("Write(%d, %+v, %X): %+v, want %+v", kind, s, l, p, want)
	}
}

// sameTrans holds what stands in a scalar's place against the model's.
func sameTrans(t *testing.T, kind int, s api.State, u rune) {
	t.Helper()
	p, ok := codec.Trans(kind, s, u)
	want, wantOK := modelTrans(kind, s, u)
	if p != want || ok != wantOK {
		t.Fatalf("Trans(%d, %+v, %X): %+v, %v, want %+v, %v", kind, s, u, p, ok, want, wantOK)
	}
}

// sameDecode holds a text's scalars against the model's.
func sameDecode(t *testing.T, kind int, b []byte) {
	t.Helper()
	l, err := codec.Decode(kind, b)
	want, wantErr := modelDecode(kind, b)
	if !slices.Equal(l, want) || err != wantErr {
		t.Fatalf("Decode(%d, % X): %X, error %d, want %X, error %d", kind, b, l, err, want, wantErr)
	}
}

// sameEncode holds a text of scalars against the model's.
func sameEncode(t *testing.T, kind int, l []rune) {
	t.Helper()
	b, err := codec.Encode(kind, l)
	want, wantErr := modelEncode(kind, l)
	if !bytes.Equal(b, want) || err != wantErr {
		t.Fatalf("Encode(%d, %X): % X, error %d, want % X, error %d", kind, l, b, err, want, wantErr)
	}
}

// found is what placesOf has found, once for all tests.
var found [len(layers)]struct {
	once sync.Once
	all  []rune
}

// lastOf is the last number that may have a place, or not: no list of the chapters goes beyond U+FFFF.
func lastOf(kind int) rune {
	switch layerOf(kind) {
	case "utf8", "utf7", "wide", "wide, marked":
		return 0x10FFFF
	}
	return 0xFFFF
}

// placesOf is all scalars that a kind has places for.
func placesOf(kind int) []rune {
	f := &found[kind]
	f.once.Do(func() {
		for u := rune(0); u <= lastOf(kind); u++ {
			if modelSet(kind, api.State{}, u).Err == api.OK {
				f.all = append(f.all, u)
			}
		}
	})
	return slices.Clone(f.all)
}

// The kinds are those of chapter 23.
func TestKindsOfTheModel(t *testing.T) {
	if !slices.Equal(kinds(), names.Kinds()) || len(kinds()) != 56 {
		t.Errorf("kinds %v", kinds())
	}
}

// Promises 24.1 to 24.4: a number that is no kind is told ahead of all else, with nothing else.

func refusesKind(t *testing.T, kind int) {
	t.Helper()
	for _, s := range []api.State{{}, in(1), in(-1), {Bits: 1}, {Acc: 1}, {Held: 'A'}, within(99, 1, 0xD800)} {
		for _, b := range []string{"", "A", "\xFF", "\xFE\xFF\x00A", "\x1B"} {
			if g := codec.Get(kind, s, []byte(b)); g != (api.Got{Err: api.ErrKind}) {
				t.Fatalf("Get(%d, %+v, %q): %+v", kind, s, b, g)
			}
			if l, err := codec.Decode(kind, []byte(b)); len(l) != 0 || err != api.ErrKind {
				t.Fatalf("Decode(%d, %q): %X, error %d", kind, b, l, err)
			}
		}
		for _, u := range []rune{'A', 0, 0x20AC, 0x4E00, -1, 0xD800, 0x110000} {
			if p := codec.Set(kind, s, u); p != (api.Put{Err: api.ErrKind}) {
				t.Fatalf("Set(%d, %+v, %X): %+v", kind, s, u, p)
			}
			if p, ok := codec.Trans(kind, s, u); p != (api.Put{Err: api.ErrKind}) || ok {
				t.Fatalf("Trans(%d, %+v, %X): %+v, %v", kind, s, u, p, ok)
			}
		}
		for _, l := range [][]rune{nil, {}, {'A'}, {-1}, {0x4E00, 'A'}} {
			if p := codec.Write(kind, s, l); p != (api.Put{Err: api.ErrKind}) {
				t.Fatalf("Write(%d, %+v, %X): %+v", kind, s, l, p)
			}
			if b, err := codec.Encode(kind, l); len(b) != 0 || err != api.ErrKind {
				t.Fatalf("Encode(%d, %X): % X, error %d", kind, l, b, err)
			}
		}
		if e := end(kind, s); e != (ended{err: api.ErrKind}) {
			t.Fatalf("End(%d, %+v): %+v", kind, s, e)
		}
		if u, ok := codec.Drain(kind, s); u != 0 || ok {
			t.Fatalf("Drain(%d, %+v): %X, %v", kind, s, u, ok)
		}
	}
}

func TestNumbersThatAreNoKind(t *testing.T) {
	t.Parallel()
	refused := 0
	for kind := -5000; kind <= 5000; kind++ {
		if layerOf(kind) == "" {
			refusesKind(t, kind)
			refused++
		}
	}
	if refused != 10001-56 {
		t.Errorf("%d numbers were no kind", refused)
	}
	for bit := range 64 {
		for _, kind := range []int{1 << bit, -1 << bit, 1<<bit - 1, 1<<bit + 2, 1<<bit + 58, -1<<bit + 83} {
			if layerOf(kind) == "" {
				refusesKind(t, kind)
			}
		}
	}
	// What a kind's number is when its higher bits are cut off.
	for _, kind := range kinds() {
		refusesKind(t, kind+256)
		refusesKind(t, kind+1<<16)
		refusesKind(t, kind-1<<32)
		refusesKind(t, kind+math.MinInt)
		refusesKind(t, -kind)
	}
}

func TestNumbersBetweenKinds(t *testing.T) {
	for _, kind := range []int{0, 12, 13, 14, 15, 16, 17, 18, 19, 20, 32, 37, 38, 39, 42, 43, 44, 45, 46, 47, 48, 49, 59, 67, 68, 69, 73, 74, 75, 76, 77, 78, 79, 89, 90, 99} {
		refusesKind(t, kind)
	}
}

// Promises 24.1 to 24.3: a state that is none of the kind's is told ahead of all else but ErrKind, with nothing else.

func TestStatesOfAllSorts(t *testing.T) {
	eachKind(t, func(t *testing.T, kind int) {
		for _, s := range grid() {
			for _, b := range []string{"", "A", "\xFF", "\x00\x00\xFE\xFF"} {
				sameGot(t, kind, s, []byte(b))
			}
			for _, u := range []rune{'A', 0x20AC, 0x3042, -1} {
				samePut(t, kind, s, u)
				sameTrans(t, kind, s, u)
			}
			for _, l := range [][]rune{nil, {}, {'A', 0x2022}, {-1, 'A'}} {
				sameWrite(t, kind, s, l)
			}
			if e, want := end(kind, s), modelEnd(kind, s); e != want {
				t.Fatalf("End(%d, %+v): %+v, want %+v", kind, s, e, want)
			}
			u, ok := codec.Drain(kind, s)
			if want, wantOK := modelDrain(kind, s); u != want || ok != wantOK {
				t.Fatalf("Drain(%d, %+v): %X, %v, want %X, %v", kind, s, u, ok, want, wantOK)
			}
		}
	})
}

// refusesState asks all calls in a state that is none of the kind's for writing, and perhaps for reading.
func refusesState(t *testing.T, kind int, s api.State, reading bool) {
	t.Helper()
	for _, b := range []string{"", "A", "\xFF", "\xFE\xFF\x00A", "\x1B$B"} {
		if g := codec.Get(kind, s, []byte(b)); reading && g != (api.Got{Err: api.ErrState}) {
			t.Errorf("Get(%d, %+v, %q): %+v", kind, s, b, g)
		}
	}
	for _, u := range []rune{'A', 0x20AC, -1, 0xD800, 0x110000} {
		if p := codec.Set(kind, s, u); p != (api.Put{Err: api.ErrState}) {
			t.Errorf("Set(%d, %+v, %X): %+v", kind, s, u, p)
		}
		if p, ok := codec.Trans(kind, s, u); p != (api.Put{Err: api.ErrState}) || ok {
			t.Errorf("Trans(%d, %+v, %X): %+v, %v", kind, s, u, p, ok)
		}
	}
	for _, l := range [][]rune{nil, {}, {'A'}, {-1, 'A'}} {
		if p := codec.Write(kind, s, l); p != (api.Put{Err: api.ErrState}) {
			t.Errorf("Write(%d, %+v, %X): %+v", kind, s, l, p)
		}
	}
	if e := end(kind, s); e != (ended{err: api.ErrState}) {
		t.Errorf("End(%d, %+v): %+v", kind, s, e)
	}
	if u, ok := codec.Drain(kind, s); u != 0 || ok {
		t.Errorf("Drain(%d, %+v): %X, %v", kind, s, u, ok)
	}
}

func TestStatesThatAreNone(t *testing.T) {
	eachKind(t, func(t *testing.T, kind int) {
		for _, s := range []api.State{in(-1), in(3), in(4), in(math.MaxInt), in(math.MinInt), {Bits: 1}, {Acc: 1}, {Held: 1}, {Held: 'B'}, {Held: -1}, {Mode: 3, Held: 'A'}, {Mode: 2, Bits: 1}, {Mode: 2, Held: 0xD800}, {Mode: 2, Acc: 1}, within(0, 1, 0), within(16, 0, 0), within(-1, 0, 0), within(5, 32, 0), within(0, 0, 0xDC00), within(0, 0, 'A')} {
			refusesState(t, kind, s, true)
		}
		switch layerOf(kind) {
		case "utf7":
			for _, s := range []api.State{in(2), within(6, 0, 0), within(15, 0, 0), within(0, 0, 0xD800), within(5, 31, 0xDBFF)} {
				refusesState(t, kind, s, false)
			}
		case "hz":
			refusesState(t, kind, in(2), true)
		case "wide, marked", "iso2022":
			refusesState(t, kind, within(1, 0, 0), true)
		case "viet":
			refusesState(t, kind, in(1), true)
			refusesState(t, kind, in(2), true)
			refusesState(t, kind, api.State{Mode: 1, Held: 'A'}, true)
			refusesState(t, kind, api.State{Bits: 1, Held: 'A'}, true)
			refusesState(t, kind, api.State{Acc: 1, Held: 'A'}, true)
			refusesState(t, kind, api.State{Held: 0x300}, true)
		default:
			refusesState(t, kind, in(1), true)
			refusesState(t, kind, in(2), true)
			refusesState(t, kind, api.State{Held: 'A'}, true)
			refusesState(t, kind, api.State{Held: 0xD800}, true)
		}
	})
}

// Promise 24.1: a step is what the kind's own layer answers.

func TestGetOfNothing(t *testing.T) {
	for _, kind := range kinds() {
		for _, s := range statesOf(kind) {
			for _, b := range [][]byte{nil, {}, []byte("A")[:0]} {
				if g := codec.Get(kind, s, b); g != (api.Got{Err: api.More}) {
					t.Errorf("Get(%d, %+v, nothing): %+v", kind, s, g)
				}
			}
		}
	}
}

func TestGetOfShortRows(t *testing.T) {
	eachKind(t, func(t *testing.T, kind int) {
		states := statesOf(kind)
		for _, s := range states {
			for a := range 256 {
				sameGot(t, kind, s, []byte{byte(a)})
				for _, b := range telling {
					sameGot(t, kind, s, []byte{byte(a), b})
				}
			}
		}
		for _, s := range states[:min(3, len(states))] {
			for pair := range 256 * 256 {
				sameGot(t, kind, s, []byte{byte(pair >> 8), byte(pair)})
			}
		}
	})
}

func TestGetOfLongRows(t *testing.T) {
	eachKind(t, func(t *testing.T, kind int) {
		r := rand.New(rand.NewPCG(24, uint64(kind)))
		for _, s := range statesOf(kind) {
			for range 3000 {
				b := make([]byte, 3+r.IntN(6))
				for i := range b {
					b[i] = byte(r.IntN(256))
					if r.IntN(4) > 0 {
						b[i] = telling[r.IntN(len(telling))]
					}
				}
				sameGot(t, kind, s, b)
			}
		}
	})
}

// Each scalar's own bytes, whole, cut off, and with something behind.
func TestGetOfWhatIsSet(t *testing.T) {
	eachKind(t, func(t *testing.T, kind int) {
		for u := rune(0); u <= 0x10FFFF; u += 1 + u/0x3000 {
			p := modelSet(kind, api.State{}, u)
			for n := range len(p.Bytes) + 1 {
				sameGot(t, kind, api.State{}, []byte(p.Bytes[:n]))
			}
			sameGot(t, kind, api.State{}, []byte(p.Bytes+"A"))
			sameGot(t, kind, api.State{}, []byte(p.Bytes+"\xFF\xFF\xFF"))
		}
	})
}

func TestASCIIByteByByte(t *testing.T) {
	for n := range 256 {
		want := api.Got{N: 1, K: 1, A: rune(n)}
		if n >= 0x80 {
			want = api.Got{Err: api.Illegal, N: 1}
		}
		for _, behind := range []string{"", "A", "\x80", "\xFF\xFE\xFD"} {
			if g := codec.Get(api.ASCII, api.State{}, append([]byte{byte(n)}, behind...)); g != want {
				t.Errorf("Get(ASCII, %02X and %q): %+v, want %+v", n, behind, g, want)
			}
		}
	}
	for u := rune(-300); u <= 0x10FFFF; u++ {
		want := api.Put{Err: api.None}
		if 0 <= u && u <= 0x7F {
			want = api.Put{Bytes: string([]byte{byte(u)})}
		}
		if p := codec.Set(api.ASCII, api.State{}, u); p != want {
			t.Fatalf("Set(ASCII, %X): %+v, want %+v", u, p, want)
		}
	}
}

func TestJIS0201ByteByByte(t *testing.T) {
	written := map[rune]string{}
	for n := range 256 {
		want := api.Got{N: 1, K: 1, A: rune(n)}
		switch {
		case n == 0x5C:
			want.A = 0xA5
		case n == 0x7E:
			want.A = 0x203E
		case 0xA1 <= n && n <= 0xDF:
			want.A = 0xFF61 + rune(n) - 0xA1
		case n >= 0x80:
			want = api.Got{Err: api.Illegal, N: 1}
		}
		if want.Err == api.OK {
			written[want.A] = string([]byte{byte(n)})
		}
		for _, behind := range []string{"", "A", "\x80", "\xFF\xFE\xFD"} {
			if g := codec.Get(api.JIS0201, api.State{}, append([]byte{byte(n)}, behind...)); g != want {
				t.Errorf("Get(JIS0201, %02X and %q): %+v, want %+v", n, behind, g, want)
			}
		}
	}
	for u := rune(-300); u <= 0x10FFFF; u++ {
		want := api.Put{Err: api.None}
		if text, ok := written[u]; ok {
			want = api.Put{Bytes: text}
		}
		if p := codec.Set(api.JIS0201, api.State{}, u); p != want {
			t.Fatalf("Set(JIS0201, %X): %+v, want %+v", u, p, want)
		}
	}
}

func TestGetByEye(t *testing.T) {
	for _, c := range []struct {
		kind int
		s    api.State
		b    string
		want api.Got
	}{
		{api.ASCII, api.State{}, "AB", api.Got{N: 1, K: 1, A: 'A'}},
		{api.ASCII, api.State{}, "\x80A", api.Got{Err: api.Illegal, N: 1}},
		{api.UTF8, api.State{}, "\xC3\xA4A", api.Got{N: 2, K: 1, A: 0xE4}},
		{api.UTF8, api.State{}, "\xC3", api.Got{Err: api.More}},
		{api.UTF8, api.State{}, "\xE2\x82A", api.Got{Err: api.Illegal, N: 2}},
		{api.UTF16BE, api.State{}, "\xFE\xFF", api.Got{N: 2, K: 1, A: 0xFEFF}},
		{api.UTF16LE, api.State{}, "\x3D\xD8\x00\xDE", api.Got{N: 4, K: 1, A: 0x1F600}},
		{api.UTF16LE, api.State{}, "\x3D\xD8", api.Got{Err: api.More}},
		{api.UTF16, api.State{}, "\xFF\xFE", api.Got{N: 2, S: in(2)}},
		{api.UTF16, in(2), "A\x00", api.Got{N: 2, K: 1, A: 'A', S: in(2)}},
		{api.UTF16, api.State{}, "\x00A", api.Got{N: 2, K: 1, A: 'A', S: in(1)}},
		{api.UTF16, in(2), "\x00\xDC", api.Got{Err: api.Illegal, N: 2, S: in(2)}},
		{api.UTF32BE, api.State{}, "\x00\x11\x00\x00", api.Got{Err: api.Illegal, N: 4}},
		{api.UTF32LE, api.State{}, "A\x00\x00\x00", api.Got{N: 4, K: 1, A: 'A'}},
		{api.UTF32, api.State{}, "\x00\x00\xFE\xFF", api.Got{N: 4, S: in(1)}},
		{api.UCS2BE, api.State{}, "\xD8\x3D\xDE\x00", api.Got{Err: api.Illegal, N: 2}},
		{api.UCS2LE, api.State{}, "\xAC\x20", api.Got{N: 2, K: 1, A: 0x20AC}},
		{api.UTF7, api.State{}, "+A", api.Got{N: 1, S: in(2)}},
		{api.UTF7, in(2), "-", api.Got{N: 1, K: 1, A: '+'}},
		{api.UTF7, within(4, 0, 0), " ", api.Got{N: 1, K: 1, A: ' '}},
		{api.UTF7, api.State{}, "~", api.Got{Err: api.Illegal, N: 1}},
		{api.ISO1, api.State{}, "\xE4", api.Got{N: 1, K: 1, A: 0xE4}},
		{api.ISO5, api.State{}, "\xB0", api.Got{N: 1, K: 1, A: 0x410}},
		{api.ISO15, api.State{}, "\xA4", api.Got{N: 1, K: 1, A: 0x20AC}},
		{api.KOI8R, api.State{}, "\xF1", api.Got{N: 1, K: 1, A: 0x42F}},
		{api.CP1252, api.State{}, "\x80", api.Got{N: 1, K: 1, A: 0x20AC}},
		{api.CP1252, api.State{}, "\x81", api.Got{Err: api.Illegal, N: 1}},
		{api.CP1258, api.State{}, "A", api.Got{N: 1, S: api.State{Held: 'A'}}},
		{api.CP1258, api.State{Held: 'A'}, "\xCC", api.Got{N: 1, K: 1, A: 0xC0}},
		{api.CP1258, api.State{Held: 'A'}, "B", api.Got{N: 1, K: 2, A: 'A', B: 'B'}},
		{api.CP1258, api.State{Held: 'E'}, "A", api.Got{N: 1, K: 1, A: 'E', S: api.State{Held: 'A'}}},
		{api.CP1258, api.State{Held: 'E'}, "\x81", api.Got{Err: api.Illegal, N: 1, S: api.State{Held: 'E'}}},
		{api.CP437, api.State{}, "\x80", api.Got{N: 1, K: 1, A: 0xC7}},
		{api.MacRoman, api.State{}, "\x80", api.Got{N: 1, K: 1, A: 0xC4}},
		{api.CP037, api.State{}, "\xC1", api.Got{N: 1, K: 1, A: 'A'}},
		{api.JIS0201, api.State{}, "\\", api.Got{N: 1, K: 1, A: 0xA5}},
		{api.EUCJP, api.State{}, "\xA4\xA2", api.Got{N: 2, K: 1, A: 0x3042}},
		{api.EUCJP, api.State{}, "\x8E\xB1", api.Got{N: 2, K: 1, A: 0xFF71}},
		{api.EUCCN, api.State{}, "\x8E\xB1", api.Got{Err: api.Illegal, N: 1}},
		{api.EUCKR, api.State{}, "\xB0\xA1", api.Got{N: 2, K: 1, A: 0xAC00}},
		{api.ShiftJIS, api.State{}, "\x82\xA0", api.Got{N: 2, K: 1, A: 0x3042}},
		{api.ShiftJIS, api.State{}, "\x82", api.Got{Err: api.More}},
		{api.JOHAB, api.State{}, "\x88\x61", api.Got{N: 2, K: 1, A: 0xAC00}},
		{api.JOHAB, api.State{}, "\\", api.Got{N: 1, K: 1, A: 0x20A9}},
		{api.HZ, api.State{}, "~{", api.Got{N: 2, S: in(1)}},
		{api.HZ, in(1), "$\"", api.Got{N: 2, K: 1, A: 0x3042, S: in(1)}},
		{api.HZ, in(1), "~A", api.Got{Err: api.Illegal, N: 1, S: in(1)}},
		{api.ISO2022JP, api.State{}, "\x1B$B", api.Got{N: 3, S: in(2)}},
		{api.ISO2022JP, in(2), "$\"", api.Got{N: 2, K: 1, A: 0x3042, S: in(2)}},
		{api.ISO2022JP, api.State{}, "\x1B(", api.Got{Err: api.More}},
		{api.ISO2022KR, api.State{}, "\x1B$)C", api.Got{N: 4, S: in(1)}},
		{api.ISO2022KR, in(2), "0!", api.Got{N: 2, K: 1, A: 0xAC00, S: in(2)}},
		{api.ISO2022KR, in(1), "\x0E", api.Got{N: 1, S: in(2)}},
	} {
		if g := codec.Get(c.kind, c.s, []byte(c.b)); g != c.want {
			t.Errorf("Get(%d, %+v, %q): %+v, want %+v", c.kind, c.s, c.b, g, c.want)
		}
	}
}

// Promise 24.1: what is put out is what the kind's own layer answers.

func TestSetOfEachScalar(t *testing.T) {
	eachKind(t, func(t *testing.T, kind int) {
		for u := rune(-0x100); u <= lastOf(kind); u++ {
			samePut(t, kind, api.State{}, u)
		}
		for u := lastOf(kind) + 1; u <= 0x110100; u++ {
			if p := codec.Set(kind, api.State{}, u); p != (api.Put{Err: api.None}) {
				t.Fatalf("Set(%d, %X): %+v", kind, u, p)
			}
		}
		for _, u := range strangeScalars {
			samePut(t, kind, api.State{}, u)
		}
	})
}

// In the other states, all scalars up to U+FFFF, and of those beyond one in many.
func TestSetInEachState(t *testing.T) {
	eachKind(t, func(t *testing.T, kind int) {
		for n, s := range writingStatesOf(kind)[1:] {
			for u := rune(0); u <= 0xFFFF; u++ {
				samePut(t, kind, s, u)
			}
			for u := rune(0x10000 + n); u <= 0x110000; u += 997 {
				samePut(t, kind, s, u)
			}
			for _, u := range append(strangeScalars, sampleScalars...) {
				samePut(t, kind, s, u)
			}
		}
	})
}

func TestSetByEye(t *testing.T) {
	for _, c := range []struct {
		kind int
		s    api.State
		u    rune
		want api.Put
	}{
		{api.ASCII, api.State{}, 'A', api.Put{Bytes: "A"}},
		{api.ASCII, api.State{}, 0x80, api.Put{Err: api.None}},
		{api.UTF8, api.State{}, 0x20AC, api.Put{Bytes: "\xE2\x82\xAC"}},
		{api.UTF8, api.State{}, 0xD800, api.Put{Err: api.None}},
		{api.UTF16BE, api.State{}, 0x1F600, api.Put{Bytes: "\xD8\x3D\xDE\x00"}},
		{api.UTF16LE, api.State{}, 'A', api.Put{Bytes: "A\x00"}},
		{api.UTF16, api.State{}, 'A', api.Put{Bytes: "\xFE\xFF\x00A", S: in(1)}},
		{api.UTF16, in(2), 'A', api.Put{Bytes: "A\x00", S: in(2)}},
		{api.UTF32BE, api.State{}, 0x10FFFF, api.Put{Bytes: "\x00\x10\xFF\xFF"}},
		{api.UTF32LE, api.State{}, 'A', api.Put{Bytes: "A\x00\x00\x00"}},
		{api.UTF32, api.State{}, 'A', api.Put{Bytes: "\x00\x00\xFE\xFF\x00\x00\x00A", S: in(1)}},
		{api.UCS2BE, api.State{}, 0x1F600, api.Put{Err: api.None}},
		{api.UCS2LE, api.State{}, 0x20AC, api.Put{Bytes: "\xAC\x20"}},
		{api.UTF7, api.State{}, 0xE4, api.Put{Bytes: "+AO", S: within(4, 4, 0)}},
		{api.UTF7, within(4, 4, 0), 'A', api.Put{Bytes: "Q-A"}},
		{api.ISO1, api.State{}, 0xE4, api.Put{Bytes: "\xE4"}},
		{api.ISO1, api.State{}, 0x20AC, api.Put{Err: api.None}},
		{api.ISO15, api.State{}, 0x20AC, api.Put{Bytes: "\xA4"}},
		{api.KOI8R, api.State{}, 0x42F, api.Put{Bytes: "\xF1"}},
		{api.CP1252, api.State{}, 0x20AC, api.Put{Bytes: "\x80"}},
		{api.CP1258, api.State{}, 0x1EA4, api.Put{Bytes: "\xC2\xEC"}},
		{api.CP1258, api.State{}, 0xC0, api.Put{Bytes: "\xC0"}},
		{api.CP1258, api.State{Held: 'A'}, 0x300, api.Put{Bytes: "\xCC"}},
		{api.CP1258, api.State{Held: 0x1B0}, 'A', api.Put{Bytes: "A"}},
		{api.CP1258, api.State{Held: 'A'}, 0x4E00, api.Put{Err: api.None}},
		{api.CP437, api.State{}, 0xC7, api.Put{Bytes: "\x80"}},
		{api.MacRoman, api.State{}, 0xC4, api.Put{Bytes: "\x80"}},
		{api.CP037, api.State{}, 'A', api.Put{Bytes: "\xC1"}},
		{api.JIS0201, api.State{}, 0xFF71, api.Put{Bytes: "\xB1"}},
		{api.JIS0201, api.State{}, '\\', api.Put{Err: api.None}},
		{api.EUCJP, api.State{}, 0x3042, api.Put{Bytes: "\xA4\xA2"}},
		{api.EUCJP, api.State{}, 0xFF71, api.Put{Bytes: "\x8E\xB1"}},
		{api.EUCCN, api.State{}, 0x3042, api.Put{Bytes: "\xA4\xA2"}},
		{api.EUCKR, api.State{}, 0xAC00, api.Put{Bytes: "\xB0\xA1"}},
		{api.ShiftJIS, api.State{}, 0x3042, api.Put{Bytes: "\x82\xA0"}},
		{api.JOHAB, api.State{}, 0xD55C, api.Put{Bytes: "\xD0\x65"}},
		{api.HZ, api.State{}, 0x3042, api.Put{Bytes: "~{$\"", S: in(1)}},
		{api.HZ, in(1), 'A', api.Put{Bytes: "~}A"}},
		{api.ISO2022JP, api.State{}, 0x3042, api.Put{Bytes: "\x1B$B$\"", S: in(2)}},
		{api.ISO2022JP, in(2), 0xA5, api.Put{Bytes: "\x1B(J\\", S: in(1)}},
		{api.ISO2022KR, api.State{}, 0xAC00, api.Put{Bytes: "\x1B$)C\x0E0!", S: in(2)}},
		{api.ISO2022KR, in(2), 'A', api.Put{Bytes: "\x0FA", S: in(1)}},
	} {
		if p := codec.Set(c.kind, c.s, c.u); p != c.want {
			t.Errorf("Set(%d, %+v, %X): %+v, want %+v", c.kind, c.s, c.u, p, c.want)
		}
	}
}

// Promise 24.1, of CP1258: Set goes with the states of viet alone, and leaves the zero one.
func TestSetOfCP1258InItsStates(t *testing.T) {
	all := 0
	for held := rune(-0x400); held <= 0x1FFFF; held++ {
		s := api.State{Held: held}
		p := codec.Set(api.CP1258, s, 0x1EA4)
		want := api.Put{Err: api.ErrState}
		if viet.Fits(s) {
			want = api.Put{Bytes: "\xC2\xEC"}
			all++
		}
		if p != want {
			t.Fatalf("Set(CP1258, %+v, 1EA4): %+v, want %+v", s, p, want)
		}
	}
	if all != 25 {
		t.Errorf("%d states of CP1258", all)
	}
}

// Promise 24.2: End and Drain.

func TestEndOfEachKind(t *testing.T) {
	for _, kind := range kinds() {
		for _, s := range slices.Concat(statesOf(kind), writingStatesOf(kind)) {
			if e, want := end(kind, s), modelEnd(kind, s); e != want {
				t.Errorf("End(%d, %+v): %+v, want %+v", kind, s, e, want)
			}
		}
	}
}

func TestEndByEye(t *testing.T) {
	for _, c := range []struct {
		kind int
		s    api.State
		want ended
	}{
		{api.ASCII, api.State{}, ended{}},
		{api.UTF8, api.State{}, ended{}},
		{api.UTF16BE, api.State{}, ended{}},
		{api.UTF16, api.State{}, ended{}},
		{api.UTF16, in(1), ended{s: in(1)}},
		{api.UTF16, in(2), ended{s: in(2)}},
		{api.UTF32, in(1), ended{s: in(1)}},
		{api.UTF32, in(2), ended{s: in(2)}},
		{api.UTF32, in(3), ended{err: api.ErrState}},
		{api.UTF32LE, in(1), ended{err: api.ErrState}},
		{api.UCS2LE, api.State{}, ended{}},
		{api.UTF7, api.State{}, ended{}},
		{api.UTF7, within(0, 0, 0), ended{last: "-"}},
		{api.UTF7, within(2, 0, 0), ended{last: "A-"}},
		{api.UTF7, within(4, 15, 0), ended{last: "8-"}},
		{api.UTF7, within(6, 0, 0), ended{err: api.ErrState}},
		{api.UTF7, in(2), ended{err: api.ErrState}},
		{api.ISO1, in(1), ended{err: api.ErrState}},
		{api.CP1258, api.State{}, ended{}},
		{api.CP1258, api.State{Held: 'A'}, ended{}},
		{api.CP1258, api.State{Held: 'B'}, ended{err: api.ErrState}},
		{api.HZ, api.State{}, ended{}},
		{api.HZ, in(1), ended{last: "~}"}},
		{api.ISO2022JP, api.State{}, ended{}},
		{api.ISO2022JP, in(1), ended{last: "\x1B(B"}},
		{api.ISO2022JP, in(2), ended{last: "\x1B(B"}},
		{api.ISO2022KR, api.State{}, ended{}},
		{api.ISO2022KR, in(1), ended{s: in(1)}},
		{api.ISO2022KR, in(2), ended{last: "\x0F", s: in(1)}},
	} {
		if e := end(c.kind, c.s); e != c.want {
			t.Errorf("End(%d, %+v): %+v, want %+v", c.kind, c.s, e, c.want)
		}
	}
}

func TestDrainOfEachKind(t *testing.T) {
	for kind := -300; kind <= 300; kind++ {
		for _, u := range []rune{0, 'A', 'B', 'y', 0xC2, 0x1B0, 0x300, 0xD800, -1} {
			got, ok := codec.Drain(kind, api.State{Held: u})
			held := kind == 58 && (u == 'A' || u == 'y' || u == 0xC2 || u == 0x1B0)
			if held && (got != u || !ok) || !held && (got != 0 || ok) {
				t.Errorf("Drain(%d, %X): %X, %v", kind, u, got, ok)
			}
		}
	}
	for _, kind := range kinds() {
		for _, s := range statesOf(kind) {
			u, ok := codec.Drain(kind, s)
			if kind == 58 && s.Held != 0 {
				if u != s.Held || !ok {
					t.Errorf("Drain(58, %+v): %X, %v", s, u, ok)
				}
			} else if u != 0 || ok {
				t.Errorf("Drain(%d, %+v): %X, %v", kind, s, u, ok)
			}
		}
	}
}

// Promise 24.3: Write.

func TestWriteOfNothing(t *testing.T) {
	for _, kind := range kinds() {
		for _, s := range writingStatesOf(kind) {
			for _, l := range [][]rune{nil, {}, []rune{'A'}[:0]} {
				if p := codec.Write(kind, s, l); p != (api.Put{S: s}) {
					t.Errorf("Write(%d, %+v, nothing): %+v", kind, s, p)
				}
			}
		}
	}
}

// A number without a place at the front, in the middle and at the end.
func TestWriteOfWhatHasNoPlace(t *testing.T) {
	for _, kind := range kinds() {
		for _, s := range writingStatesOf(kind) {
			for _, u := range []rune{0xD800, 0xDFFF, -1, 0x110000, math.MaxInt32, math.MinInt32} {
				for _, l := range [][]rune{{u}, {u, 'A'}, {'A', u}, {'A', u, 'B'}, {u, u}, {'A', 'B', 'C', u, 'D', u}} {
					if p := codec.Write(kind, s, l); p != (api.Put{Err: api.None}) {
						t.Errorf("Write(%d, %+v, %X): %+v", kind, s, l, p)
					}
				}
			}
		}
	}
}

// pick is some scalars, most of them with a place.
func pick(r *rand.Rand, places []rune, most int) []rune {
	l := make([]rune, r.IntN(most+1))
	for i := range l {
		l[i] = places[r.IntN(len(places))]
		switch r.IntN(60) {
		case 0:
			l[i] = strangeScalars[r.IntN(len(strangeScalars))]
		case 1, 2, 3, 4, 5, 6:
			l[i] = sampleScalars[r.IntN(len(sampleScalars))]
		case 7, 8, 9, 10, 11, 12, 13, 14, 15:
			l[i] = rune(r.IntN(0x80))
		}
	}
	return l
}

func TestWriteFromEachState(t *testing.T) {
	eachKind(t, func(t *testing.T, kind int) {
		r := rand.New(rand.NewPCG(24, 1000+uint64(kind)))
		places := placesOf(kind)
		states := writingStatesOf(kind)
		for n := range 4000 {
			sameWrite(t, kind, states[n%len(states)], pick(r, places, 8))
		}
		for _, s := range states {
			for _, a := range sampleScalars {
				sameWrite(t, kind, s, []rune{a})
				for _, b := range sampleScalars {
					sameWrite(t, kind, s, []rune{a, b})
				}
			}
		}
	})
}

func TestWriteByEye(t *testing.T) {
	for _, c := range []struct {
		kind int
		s    api.State
		l    []rune
		want api.Put
	}{
		{api.ASCII, api.State{}, []rune{'A', 'B'}, api.Put{Bytes: "AB"}},
		{api.ASCII, api.State{}, []rune{'A', 0xE4, 'B'}, api.Put{Err: api.None}},
		{api.UTF16, api.State{}, []rune{'A', 'B'}, api.Put{Bytes: "\xFE\xFF\x00A\x00B", S: in(1)}},
		{api.UTF16, in(2), []rune{'A', 'B'}, api.Put{Bytes: "A\x00B\x00", S: in(2)}},
		{api.UTF16, in(2), nil, api.Put{S: in(2)}},
		{api.UTF7, api.State{}, []rune{0xE4, 0xE4, 'A', '+'}, api.Put{Bytes: "+AOQA5A-A+-"}},
		{api.UTF7, within(2, 0, 0), []rune{0xE4}, api.Put{Bytes: "ADk", S: within(0, 0, 0)}},
		{api.CP1258, api.State{Held: 'A'}, nil, api.Put{S: api.State{Held: 'A'}}},
		{api.CP1258, api.State{Held: 'A'}, []rune{0x300, 'A'}, api.Put{Bytes: "\xCCA"}},
		{api.HZ, in(1), []rune{0x3042, '~', 0x3042}, api.Put{Bytes: "$\"~}~~~{$\"", S: in(1)}},
		{api.ISO2022JP, api.State{}, []rune{'A', 0x3042, 0xA5}, api.Put{Bytes: "A\x1B$B$\"\x1B(J\\", S: in(1)}},
		{api.ISO2022KR, api.State{}, []rune{0xAC00, 0xAC00, 'A'}, api.Put{Bytes: "\x1B$)C\x0E0!0!\x0FA", S: in(1)}},
		{api.ISO2022KR, in(2), []rune{0xAC00, 0x0E}, api.Put{Err: api.None}},
	} {
		if p := codec.Write(c.kind, c.s, c.l); p != c.want {
			t.Errorf("Write(%d, %+v, %X): %+v, want %+v", c.kind, c.s, c.l, p, c.want)
		}
	}
}

// Promise 24.3: Trans.

func TestTransOfEachCandidate(t *testing.T) {
	eachKind(t, func(t *testing.T, kind int) {
		for _, s := range writingStatesOf(kind) {
			for _, u := range slices.Concat(translit.All(), strangeScalars, sampleScalars) {
				sameTrans(t, kind, s, u)
			}
		}
	})
}

func TestTransOfEachScalar(t *testing.T) {
	for _, kind := range []int{api.ASCII, api.UCS2BE, api.ISO1, api.CP1258, api.CP037, api.JOHAB} {
		t.Run(fmt.Sprint(kind), func(t *testing.T) {
			t.Parallel()
			for u := rune(-0x10); u <= 0x12000; u++ {
				sameTrans(t, kind, api.State{}, u)
			}
		})
	}
}

func TestTransByEye(t *testing.T) {
	none := api.Put{Err: api.None}
	for _, c := range []struct {
		kind int
		s    api.State
		u    rune
		want api.Put
		ok   bool
	}{
		// It has a place.
		{api.ASCII, api.State{}, 'A', api.Put{Bytes: "A"}, false},
		{api.ISO15, api.State{}, 0x20AC, api.Put{Bytes: "\xA4"}, false},
		{api.UTF16, api.State{}, 0x20AC, api.Put{Bytes: "\xFE\xFF\x20\xAC", S: in(1)}, false},
		{api.ISO2022JP, in(2), 'A', api.Put{Bytes: "\x1B(BA"}, false},
		// The first candidate has.
		{api.ASCII, api.State{}, 0x20AC, api.Put{Bytes: "EUR"}, true},
		{api.ASCII, api.State{}, 0xC4, api.Put{Bytes: "Ae"}, true},
		{api.CP037, api.State{}, 0x20AC, api.Put{Bytes: "\xC5\xE4\xD9"}, true},
		{api.ISO1, api.State{}, 0x201C, api.Put{Bytes: "\xAB"}, true},
		{api.ISO1, api.State{}, 0x2022, api.Put{Bytes: "\xB7"}, true},
		{api.HZ, in(1), 0xC4, api.Put{Bytes: "~}Ae"}, true},
		{api.ISO2022JP, in(2), 0x20AC, api.Put{Bytes: "\x1B(BEUR"}, true},
		{api.ISO2022KR, api.State{}, 0xC4, api.Put{Bytes: "\x1B$)CAe", S: in(1)}, true},
		{api.ISO2022KR, in(2), 0xC4, api.Put{Bytes: "\x0FAe", S: in(1)}, true},
		// An earlier one has not.
		{api.ASCII, api.State{}, 0x2019, api.Put{Bytes: "'"}, true},
		{api.ASCII, api.State{}, 0x201C, api.Put{Bytes: "\""}, true},
		{api.ASCII, api.State{}, 0x2022, api.Put{Bytes: "o"}, true},
		{api.CP866, api.State{}, 0x201D, api.Put{Bytes: "\""}, true},
		{api.HZ, in(1), 0x2022, api.Put{Bytes: "~}o"}, true},
		{api.ISO2022JP, in(2), 0x2022, api.Put{Bytes: "\x1B(Bo"}, true},
		// None has, or there is none.
		{api.JIS0201, api.State{}, 0xFF3C, none, false},
		{api.JIS0201, api.State{}, 0xFF5E, none, false},
		{api.JOHAB, api.State{}, 0xFF3C, none, false},
		{api.ASCII, api.State{}, 0x4E00, none, false},
		{api.ISO2022JP, in(2), 0xAC00, none, false},
		{api.UCS2BE, api.State{}, 0x1F600, none, false},
		{api.UTF8, api.State{}, 0xD800, none, false},
		{api.UTF8, api.State{}, -1, none, false},
		// The kind, or the state, is wrong.
		{0, in(9), 0x20AC, api.Put{Err: api.ErrKind}, false},
		{12, api.State{}, 0x4E00, api.Put{Err: api.ErrKind}, false},
		{api.ASCII, in(1), 0x20AC, api.Put{Err: api.ErrState}, false},
		{api.ISO2022JP, in(3), 0x4E00, api.Put{Err: api.ErrState}, false},
	} {
		if p, ok := codec.Trans(c.kind, c.s, c.u); p != c.want || ok != c.ok {
			t.Errorf("Trans(%d, %+v, %X): %+v, %v, want %+v, %v", c.kind, c.s, c.u, p, ok, c.want, c.ok)
		}
	}
}

// Promise 24.4: Decode.

func TestDecodeOfNothing(t *testing.T) {
	for _, kind := range kinds() {
		for _, b := range [][]byte{nil, {}, []byte("A")[:0]} {
			if l, err := codec.Decode(kind, b); len(l) != 0 || err != api.OK {
				t.Errorf("Decode(%d, nothing): %X, error %d", kind, l, err)
			}
		}
	}
}

func TestDecodeOfAllSorts(t *testing.T) {
	eachKind(t, func(t *testing.T, kind int) {
		r := rand.New(rand.NewPCG(24, 2000+uint64(kind)))
		places := placesOf(kind)
		for n := range 6000 {
			b, _ := modelEncode(kind, pick(r, places, 12))
			switch n % 3 {
			case 1:
				b = b[:r.IntN(len(b)+1)]
			case 2:
				b = slices.Insert(b, r.IntN(len(b)+1), telling[r.IntN(len(telling))])
			}
			sameDecode(t, kind, b)
		}
		for _, a := range telling {
			for _, b := range telling {
				sameDecode(t, kind, []byte{a, b})
				for _, c := range telling {
					sameDecode(t, kind, []byte{a, b, c})
				}
			}
		}
	})
}

func TestDecodeByEye(t *testing.T) {
	for _, c := range []struct {
		kind int
		b    string
		want []rune
		err  api.Errno
	}{
		{api.ASCII, "AB", []rune{'A', 'B'}, api.OK},
		{api.ASCII, "\x80AB", nil, api.Illegal},
		{api.ASCII, "AB\x80", nil, api.Illegal},
		{api.UTF8, "A\xC3\xA4", []rune{'A', 0xE4}, api.OK},
		{api.UTF8, "A\xC3", nil, api.More},
		{api.UTF8, "A\xC3A", nil, api.Illegal},
		{api.UTF8, "\xFFA\xC3", nil, api.Illegal},
		{api.UTF16BE, "\xFE\xFF\x00A", []rune{0xFEFF, 'A'}, api.OK},
		{api.UTF16, "\xFF\xFEA\x00", []rune{'A'}, api.OK},
		{api.UTF16, "\xFE\xFF\xFE\xFF", []rune{0xFEFF}, api.OK},
		{api.UTF16, "\xFE\xFF", nil, api.OK},
		{api.UTF16, "\xFF\xFEA", nil, api.More},
		{api.UTF16, "\x00A\xD8\x3D", nil, api.More},
		{api.UTF32LE, "A\x00\x00\x00B", nil, api.More},
		{api.UTF32, "\xFF\xFE\x00\x00A\x00\x00\x00", []rune{'A'}, api.OK},
		{api.UTF7, "Hi +- +AOQ-", []rune{'H', 'i', ' ', '+', ' ', 0xE4}, api.OK},
		{api.UTF7, "+2D3eAA-", []rune{0x1F600}, api.OK},
		{api.UTF7, "+AOQ", []rune{0xE4}, api.OK},
		{api.UTF7, "+", nil, api.OK},
		{api.UTF7, "A~", nil, api.Illegal},
		{api.ISO5, "\xB0A", []rune{0x410, 'A'}, api.OK},
		{api.CP1252, "A\x81", nil, api.Illegal},
		{api.CP1258, "A", []rune{'A'}, api.OK},
		{api.CP1258, "A\xCC", []rune{0xC0}, api.OK},
		{api.CP1258, "A\xCCB", []rune{0xC0, 'B'}, api.OK},
		{api.CP1258, "ABE", []rune{'A', 'B', 'E'}, api.OK},
		{api.CP1258, "AE\xD2A", []rune{'A', 0x1EBA, 'A'}, api.OK},
		{api.CP1258, "A\x81", nil, api.Illegal},
		{api.CP037, "\xC1\x40", []rune{'A', ' '}, api.OK},
		{api.JIS0201, "\\\xB1", []rune{0xA5, 0xFF71}, api.OK},
		{api.EUCJP, "A\xA4\xA2\x8E\xB1", []rune{'A', 0x3042, 0xFF71}, api.OK},
		{api.EUCJP, "A\xA4", nil, api.More},
		{api.EUCJP, "A\xFE\xFEA", nil, api.Illegal},
		{api.ShiftJIS, "\x82\xA0\x82", nil, api.More},
		{api.JOHAB, "\x88\x61\xD0\x65", []rune{0xAC00, 0xD55C}, api.OK},
		{api.HZ, "A~{$\"~}", []rune{'A', 0x3042}, api.OK},
		{api.HZ, "A~{$\"", []rune{'A', 0x3042}, api.OK},
		{api.HZ, "A~", nil, api.More},
		{api.HZ, "~A", nil, api.Illegal},
		{api.ISO2022JP, "A\x1B$B$\"\x1B(J\\\x1B(B", []rune{'A', 0x3042, 0xA5}, api.OK},
		{api.ISO2022JP, "A\x1B$", nil, api.More},
		{api.ISO2022JP, "A\x1B)", nil, api.Illegal},
		{api.ISO2022KR, "\x1B$)C\x0E0!\x0FA", []rune{0xAC00, 'A'}, api.OK},
		{api.ISO2022KR, "\x1B$)", nil, api.More},
		{api.ISO2022KR, "\x0E0!", nil, api.Illegal},
	} {
		if l, err := codec.Decode(c.kind, []byte(c.b)); !slices.Equal(l, c.want) || err != c.err {
			t.Errorf("Decode(%d, %q): %X, error %d, want %X, error %d", c.kind, c.b, l, err, c.want, c.err)
		}
	}
}

// Of windows-1258, each letter that is held at the end comes out; what stands ahead of it too.
func TestDecodeDrains(t *testing.T) {
	for _, u := range letters {
		b, _ := modelEncode(api.CP1258, []rune{u})
		for _, ahead := range []string{"", "B", "A", "AE", "A\xCC"} {
			first, _ := modelDecode(api.CP1258, []byte(ahead+"."))
			want := append(first[:len(first)-1], u)
			if l, err := codec.Decode(api.CP1258, append([]byte(ahead), b...)); !slices.Equal(l, want) || err != api.OK {
				t.Errorf("Decode(CP1258, %q and % X): %X, error %d, want %X", ahead, b, l, err, want)
			}
		}
	}
}

// Promise 24.4: Encode.

func TestEncodeOfNothing(t *testing.T) {
	for _, kind := range kinds() {
		for _, l := range [][]rune{nil, {}, []rune{'A'}[:0]} {
			if b, err := codec.Encode(kind, l); len(b) != 0 || err != api.OK {
				t.Errorf("Encode(%d, nothing): % X, error %d", kind, b, err)
			}
		}
	}
}

func TestEncodeOfAllSorts(t *testing.T) {
	eachKind(t, func(t *testing.T, kind int) {
		r := rand.New(rand.NewPCG(24, 3000+uint64(kind)))
		places := placesOf(kind)
		for range 4000 {
			sameEncode(t, kind, pick(r, places, 12))
		}
		for _, a := range append(sampleScalars, strangeScalars...) {
			sameEncode(t, kind, []rune{a})
			for _, b := range sampleScalars {
				sameEncode(t, kind, []rune{a, b})
				sameEncode(t, kind, []rune{b, a, 'A'})
			}
		}
	})
}

func TestEncodeByEye(t *testing.T) {
	for _, c := range []struct {
		kind int
		l    []rune
		want string
		err  api.Errno
	}{
		{api.ASCII, []rune{'A', 'B'}, "AB", api.OK},
		{api.ASCII, []rune{0xE4, 'A'}, "", api.None},
		{api.ASCII, []rune{'A', 0xE4}, "", api.None},
		{api.UTF8, []rune{'A', 0x1F600}, "A\xF0\x9F\x98\x80", api.OK},
		{api.UTF8, []rune{'A', 0xD800, 'A'}, "", api.None},
		{api.UTF16, []rune{'A'}, "\xFE\xFF\x00A", api.OK},
		{api.UTF16, []rune{0xFEFF}, "\xFE\xFF\xFE\xFF", api.OK},
		{api.UTF16, nil, "", api.OK},
		{api.UTF32, []rune{'A'}, "\x00\x00\xFE\xFF\x00\x00\x00A", api.OK},
		{api.UTF7, []rune{'H', 'i', ' ', '+', ' ', 0xE4}, "Hi +- +AOQ-", api.OK},
		{api.UTF7, []rune{0x1F600}, "+2D3eAA-", api.OK},
		{api.UTF7, []rune{0xE4, -1}, "", api.None},
		{api.CP1258, []rune{0x1EA4, 'A'}, "\xC2\xECA", api.OK},
		{api.CP037, []rune{'A', ' '}, "\xC1\x40", api.OK},
		{api.HZ, []rune{'A', 0x3042}, "A~{$\"~}", api.OK},
		{api.HZ, []rune{'~'}, "~~", api.OK},
		{api.HZ, []rune{0x3042, 0xAC00}, "", api.None},
		{api.ISO2022JP, []rune{'A', 0x3042, 0xA5}, "A\x1B$B$\"\x1B(J\\\x1B(B", api.OK},
		{api.ISO2022JP, []rune{0x3042, 'A'}, "\x1B$B$\"\x1B(BA", api.OK},
		{api.ISO2022KR, []rune{0xAC00, 'A'}, "\x1B$)C\x0E0!\x0FA", api.OK},
		{api.ISO2022KR, []rune{'A', 0xAC00}, "\x1B$)CA\x0E0!\x0F", api.OK},
		{api.ISO2022KR, []rune{0xAC00, 0x1B}, "", api.None},
	} {
		if b, err := codec.Encode(c.kind, c.l); string(b) != c.want || err != c.err {
			t.Errorf("Encode(%d, %X): %q, error %d, want %q, error %d", c.kind, c.l, b, err, c.want, c.err)
		}
	}
}

// Promise 24.5: there and back.

// apart is the scalars without the marks that would make another scalar with the letter ahead.
func apart(l []rune) []rune {
	var all []rune
	for _, u := range l {
		if n := len(all); n > 0 {
			if _, ok := viet.Compose(all[n-1], u); ok {
				continue
			}
		}
		all = append(all, u)
	}
	return all
}

// thereAndBack encodes scalars that all have places, and decodes the text.
func thereAndBack(t *testing.T, kind int, l []rune) {
	t.Helper()
	if kind == api.CP1258 {
		l = apart(l)
	}
	b, err := codec.Encode(kind, l)
	if err != api.OK {
		t.Fatalf("kind %d: Encode of %d scalars: error %d", kind, len(l), err)
	}
	if back, err := codec.Decode(kind, b); err != api.OK || !slices.Equal(back, l) {
		t.Fatalf("kind %d: Decode of Encode of %d scalars: %d, error %d", kind, len(l), len(back), err)
	}
}

func TestThereAndBack(t *testing.T) {
	eachKind(t, func(t *testing.T, kind int) {
		r := rand.New(rand.NewPCG(24, 4000+uint64(kind)))
		l := placesOf(kind)
		thereAndBack(t, kind, l)
		slices.Reverse(l)
		thereAndBack(t, kind, l)
		r.Shuffle(len(l), func(i, j int) { l[i], l[j] = l[j], l[i] })
		thereAndBack(t, kind, l)
		for range 3000 {
			short := make([]rune, 1+r.IntN(6))
			for i := range short {
				short[i] = l[r.IntN(len(l))]
				if c := rune(r.IntN(0x80)); r.IntN(3) == 0 && modelSet(kind, api.State{}, c).Err == api.OK {
					short[i] = c
				}
			}
			thereAndBack(t, kind, short)
		}
	})
}

// Of windows-1258 a mark behind a letter with which it makes another scalar comes back as that one.
func TestMarksBehindLetters(t *testing.T) {
	made := 0
	for _, letter := range letters {
		for _, mark := range []rune{0x300, 0x301, 0x303, 0x309, 0x323} {
			u, _ := viet.Compose(letter, mark)
			b, err := codec.Encode(api.CP1258, []rune{letter, mark})
			if err != api.OK || len(b) != 2 {
				t.Fatalf("Encode(CP1258, %X %X): % X, error %d", letter, mark, b, err)
			}
			if l, err := codec.Decode(api.CP1258, b); err != api.OK || !slices.Equal(l, []rune{u}) {
				t.Fatalf("Decode(CP1258, % X): %X, error %d, want %X", b, l, err, u)
			}
			thereAndBack(t, api.CP1258, []rune{u})
			thereAndBack(t, api.CP1258, []rune{letter, u, letter})
			thereAndBack(t, api.CP1258, []rune{'B', mark, u, mark})
			made++
		}
	}
	if made != 120 {
		t.Errorf("%d letters with marks", made)
	}
}

// Of UTF16 and UTF32 the mark at the front is no scalar; each further one is.
func TestMarkAtTheFront(t *testing.T) {
	for _, kind := range []int{api.UTF16, api.UTF32} {
		for _, l := range [][]rune{{'A'}, {0xFEFF}, {0xFEFF, 0xFEFF, 'A'}, {0xFFFE}} {
			b, _ := codec.Encode(kind, l)
			if back, err := codec.Decode(kind, b); err != api.OK || !slices.Equal(back, l) {
				t.Errorf("kind %d: %X comes back as %X, error %d", kind, l, back, err)
			}
			first, _ := codec.Decode(kind-2, b)
			if !slices.Equal(first, append([]rune{0xFEFF}, l...)) {
				t.Errorf("kind %d: % X has the scalars %X", kind, b, first)
			}
		}
	}
}

// Steps stay within the bounds, in all states that reading comes to: what is there is told by four bytes.
func TestBounds(t *testing.T) {
	eachKind(t, func(t *testing.T, kind int) {
		r := rand.New(rand.NewPCG(24, 5000+uint64(kind)))
		var s api.State
		for range 200000 {
			b := make([]byte, 4+r.IntN(3))
			for i := range b {
				b[i] = telling[r.IntN(len(telling))]
			}
			g := codec.Get(kind, s, b)
			if g.Err != api.OK && g.Err != api.Illegal || g.N < 1 || g.N > 4 || g.K < 0 || g.K > 2 {
				t.Fatalf("Get(%d, %+v, % X): %+v", kind, s, b, g)
			}
			if short := codec.Get(kind, s, b[:4]); short != g {
				t.Fatalf("Get(%d, %+v, % X): %+v, but %+v of the first four", kind, s, b, g, short)
			}
			s = g.S
		}
	})
}

// R4: what is handed in stays as it is, with what lies behind its end; what is handed out is the caller's own.

func TestArgumentsStay(t *testing.T) {
	for _, kind := range kinds() {
		room := []byte("A\xA4\xA2\x1B$B$\"~{+AOQ-\xFE\xFF\x00A")
		before := slices.Clone(room)
		for n := range len(room) + 1 {
			codec.Get(kind, api.State{}, room[:n])
			codec.Decode(kind, room[:n])
		}
		if !slices.Equal(room, before) {
			t.Errorf("kind %d: the bytes became % X", kind, room)
		}
		list := []rune{'A', 0xE4, 0x3042, -1, 0xAC00, 'B', 0x20AC}
		listBefore := slices.Clone(list)
		for from := range list {
			for to := from; to <= len(list); to++ {
				codec.Write(kind, api.State{}, list[from:to])
				codec.Encode(kind, list[from:to])
			}
		}
		if !slices.Equal(list, listBefore) {
			t.Errorf("kind %d: the list became %X", kind, list)
		}
	}
}

func TestAnswersAreNew(t *testing.T) {
	for _, kind := range kinds() {
		text := []rune{'A', '1', 'B', 'b', '2'}
		b, _ := codec.Encode(kind, text)
		want := slices.Clone(b)
		l, _ := codec.Decode(kind, want)
		wantList := slices.Clone(l)
		other, _ := codec.Encode(kind, text)
		otherList, _ := codec.Decode(kind, want)
		spoilBytes(b)
		spoilRunes(l)
		if again, _ := codec.Encode(kind, text); !slices.Equal(again, want) || !slices.Equal(other, want) {
			t.Errorf("kind %d: Encode: % X, and % X, want % X", kind, again, other, want)
		}
		if again, _ := codec.Decode(kind, want); !slices.Equal(again, wantList) || !slices.Equal(otherList, wantList) {
			t.Errorf("kind %d: Decode: %X, and %X, want %X", kind, again, otherList, wantList)
		}
		if !slices.Equal(text, []rune{'A', '1', 'B', 'b', '2'}) {
			t.Errorf("kind %d: the list became %X", kind, text)
		}
	}
}

// spoilBytes writes over an answer, with the room behind its end.
func spoilBytes(b []byte) {
	b = b[:cap(b)]
	for i := range b {
		b[i] ^= 0x55
	}
}

func spoilRunes(l []rune) {
	l = l[:cap(l)]
	for i := range l {
		l[i] = -7
	}
}

// What was handed in may be changed behind the call.
func TestNothingIsKept(t *testing.T) {
	list := []rune{'A', 'B'}
	b, _ := codec.Encode(api.UTF8, list)
	p := codec.Write(api.UTF8, api.State{}, list)
	list[0] = 'C'
	text := []byte("AB")
	l, _ := codec.Decode(api.UTF8, text)
	text[0] = 'C'
	if string(b) != "AB" || p.Bytes != "AB" || !slices.Equal(l, []rune{'A', 'B'}) {
		t.Errorf("%q, %q, %X", b, p.Bytes, l)
	}
}

// A text as long as an input may be, through kinds of each family.
func TestLongTexts(t *testing.T) {
	for _, kind := range []int{api.ASCII, api.UTF8, api.UTF16, api.UTF7, api.ISO5, api.CP1252, api.CP1258, api.CP850, api.CP500, api.JIS0201, api.EUCKR, api.ShiftJIS, api.JOHAB, api.HZ, api.ISO2022JP, api.ISO2022KR} {
		t.Run(fmt.Sprint(kind), func(t *testing.T) {
			t.Parallel()
			places := placesOf(kind)
			l := make([]rune, 0, 1<<18)
			for len(l) < cap(l) {
				l = append(l, places[(len(l)*7919)%len(places)])
			}
			thereAndBack(t, kind, l)
		})
	}
}

// The chapter's examples.
func TestExamples(t *testing.T) {
	if b, err := codec.Encode(api.ISO2022JP, []rune{0x3042}); string(b) != "\x1B\x24\x42\x24\x22\x1B\x28\x42" || err != api.OK {
		t.Errorf("% X, error %d", b, err)
	}
	if p, ok := codec.Trans(api.ISO1, api.State{}, 0x20AC); p != (api.Put{Bytes: "EUR"}) || !ok {
		t.Errorf("%+v, %v", p, ok)
	}
	if p, ok := codec.Trans(api.ASCII, api.State{}, 0x4E00); p != (api.Put{Err: api.None}) || ok {
		t.Errorf("%+v, %v", p, ok)
	}
	if l, err := codec.Decode(api.CP1258, []byte{0x41}); !slices.Equal(l, []rune{'A'}) || err != api.OK {
		t.Errorf("%X, error %d", l, err)
	}
}
