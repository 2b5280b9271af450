package engine_test

import (
	"bytes"
	"fmt"
	"math"
	"math/rand/v2"
	"slices"
	"strings"
	"sync"
	"testing"

	"dragoman/api"
	"dragoman/codec"
	"dragoman/engine"
	"dragoman/names"
)

// enough is more room than anything needs.
const enough = math.MaxInt

// act is a call of a conversion, and what it must have done.
type act struct {
	reset bool
	in    string
	room  int
	want  engine.Done
}

// takes is a Convert.
func takes(in string, room, took int, out string, odd int, e api.Errno) act {
	return act{in: in, room: room, want: engine.Done{Took: took, Out: []byte(out), Odd: odd, Err: e}}
}

// ends is a Reset.
func ends(room int, out string, odd int, e api.Errno) act {
	return act{reset: true, room: room, want: engine.Done{Out: []byte(out), Odd: odd, Err: e}}
}

// plays plays acts, one behind the other, on a new conversion.
func plays(t *testing.T, to, from string, acts ...act) {
	t.Helper()
	p := newPair(t)
	h := p.must(to, from)
	for i, a := range acts {
		var d engine.Done
		if a.reset {
			d = p.reset(h, a.room)
		} else {
			d = p.convert(h, []byte(a.in), a.room)
		}
		if !same(d, a.want) {
			t.Errorf("from %s to %s, act %d, %X, room %d: %+v, want %+v", from, to, i+1, a.in, a.room, d, a.want)
		}
	}
}

// spoil changes all of a list, and what lies in its spare room.
func spoil[T any](l []T, with T) {
	l = l[:cap(l)]
	for i := range l {
		l[i] = with
	}
}

// bad is names that names.Parse refuses, with its errors.
var bad = []struct {
	name string
	err  api.Errno
}{
	{"", api.ErrName},
	{"x", api.ErrName},
	{"UTF", api.ErrName},
	{"//TRANSLIT", api.ErrName},
	{"UTF-8/TRANSLIT", api.ErrName},
	{" UTF-8", api.ErrName},
	{strings.Repeat("x", 64), api.ErrName},
	{"UTF-8//x", api.ErrField},
	{"UTF-8//TRANSLIT//IGNOR", api.ErrField},
	{"UTF-8//IGNORE//TRANSLIT//2", api.ErrField},
	{strings.Repeat("x", 65), api.ErrLong},
	{"ISO-8859-1" + strings.Repeat("/", 55), api.ErrLong},
	{"UTF-8//TRANSLIT//" + strings.Repeat("y", 1<<16), api.ErrLong},
}

// strangeNumbers is numbers that no conversion ever has.
var strangeNumbers = []int{0, -1, -2, -64, 65, 66, 128, 1 << 16, 1<<32 + 1, math.MaxInt, math.MinInt}

// Promise 25.1: New.

func TestNew(t *testing.T) {
	x := engine.New()
	if l := x.Live(); len(l) != 0 {
		t.Errorf("Live of a new table: %d", l)
	}
	for h := -3; h < 70; h++ {
		if e := x.Close(h); e != api.ErrState {
			t.Errorf("Close(%d) of a new table: %d", h, e)
		}
		if d := x.Convert(h, []byte("A"), 9); !same(d, engine.Done{Err: api.ErrState}) {
			t.Errorf("Convert(%d) of a new table: %+v", h, d)
		}
		if d := x.Reset(h, 9); !same(d, engine.Done{Err: api.ErrState}) {
			t.Errorf("Reset(%d) of a new table: %+v", h, d)
		}
	}
	if h, e := x.Open("UTF-8", "UTF-8"); h != 1 || e != api.OK {
		t.Errorf("Open in a new table: %d, %d", h, e)
	}
}

// Promise 25.1: Open, and what it refuses.

func TestOpenRefusesNames(t *testing.T) {
	x := engine.New()
	refuses := func(to, from string, want api.Errno) {
		t.Helper()
		if h, e := x.Open(to, from); h != 0 || e != want {
			t.Errorf("Open(%.80q, %.80q): %d, %d, want error %d", to, from, h, e, want)
		}
	}
	for _, a := range bad {
		for _, good := range []string{"UTF-8", "koi8-r", "HZ//IGNORE", "ISO-8859-1" + strings.Repeat("/", 54)} {
			refuses(a.name, good, a.err)
			refuses(good, a.name, a.err)
		}
		for _, b := range bad {
			refuses(a.name, b.name, a.err)
		}
	}
	if l := x.Live(); len(l) != 0 {
		t.Errorf("Live behind what was refused: %d", l)
	}
	if h, e := x.Open("ISO-8859-1"+strings.Repeat("/", 54), "UTF-8"); h != 1 || e != api.OK {
		t.Errorf("Open behind what was refused: %d, %d", h, e)
	}
}

func TestOpenMost(t *testing.T) {
	p := newPair(t)
	for h := 1; h <= 64; h++ {
		if got := p.must("UTF-8", "UTF-16BE"); got != h {
			t.Fatalf("Open: %d, want %d", got, h)
		}
	}
	refuses := func(to, from string, want api.Errno) {
		t.Helper()
		if h, e := p.open(to, from); h != 0 || e != want {
			t.Errorf("Open(%.80q, %.80q), 64 being open: %d, %d, want error %d", to, from, h, e, want)
		}
	}
	full := func() {
		t.Helper()
		refuses("UTF-8", "UTF-8", api.ErrLong)
		for _, b := range bad {
			refuses(b.name, "UTF-8", b.err)
			refuses("UTF-8", b.name, b.err)
		}
		if l := p.live(); len(l) != 64 || l[0] != 1 || l[63] != 64 {
			t.Errorf("Live: %d", l)
		}
	}
	full()
	for _, h := range []int{64, 1, 17, 17, 63, 2} {
		if e := p.close(h); e != api.OK {
			t.Errorf("Close(%d): %d", h, e)
		}
		if got := p.must("ISO-8859-1", "UTF-8"); got != h {
			t.Errorf("Open behind Close(%d): %d", h, got)
		}
		full()
	}
	for h := 1; h <= 64; h++ {
		want := []byte{0, 'A'}
		if slices.Contains([]int{64, 1, 17, 63, 2}, h) {
			want = []byte{'A'}
		}
		if d := p.convert(h, want, 9); string(d.Out) != "A" || d.Took != len(want) || d.Err != api.OK {
			t.Errorf("Convert(%d) of 64: %+v", h, d)
		}
	}
}

func TestOpenLeast(t *testing.T) {
	p := newPair(t)
	opens := func(want ...int) {
		t.Helper()
		for _, h := range want {
			if got := p.must("UTF-8", "UTF-8"); got != h {
				t.Fatalf("Open: %d, want %d", got, h)
			}
		}
	}
	closes := func(all ...int) {
		t.Helper()
		for _, h := range all {
			if e := p.close(h); e != api.OK {
				t.Fatalf("Close(%d): %d", h, e)
			}
		}
	}
	lives := func(want ...int) {
		t.Helper()
		if l := p.live(); !slices.Equal(l, want) {
			t.Fatalf("Live: %d, want %d", l, want)
		}
	}
	opens(1, 2, 3, 4, 5)
	closes(1)
	lives(2, 3, 4, 5)
	opens(1, 6)
	closes(3)
	lives(1, 2, 4, 5, 6)
	opens(3, 7)
	closes(7)
	lives(1, 2, 3, 4, 5, 6)
	opens(7, 8)
	closes(8, 2, 5)
	lives(1, 3, 4, 6, 7)
	opens(2, 5, 8, 9)
	closes(9, 8, 7, 6, 5, 4, 3, 2, 1)
	lives()
	opens(1)
	closes(1)
	opens(1, 2)
	lives(1, 2)
}

func TestOpenInAnyOrder(t *testing.T) {
	r := rand.New(rand.NewPCG(25, 1))
	for range 20 {
		p := newPair(t)
		rising := 1 + r.IntN(9)
		for range 400 {
			if r.IntN(10) < rising {
				p.open("UTF-8", "KOI8-R")
			} else {
				p.close(r.IntN(70) - 2)
			}
			p.live()
		}
	}
}

// Promise 25.1: both kinds, by all their names.

func TestOpenByEachName(t *testing.T) {
	for _, kind := range names.Kinds() {
		text := places(kind)
		b, e := codec.Encode(kind, text)
		if e != api.OK {
			t.Fatalf("Encode(%d): %d", kind, e)
		}
		wide, _ := codec.Encode(api.UTF32BE, text)
		for _, name := range names.Aliases(kind) {
			for _, s := range []string{name, strings.ToLower(name)} {
				if got, odd, e := engine.All(s, "utf-32be", wide); !bytes.Equal(got, b) || odd != 0 || e != api.OK {
					t.Errorf("All to %s: %X, %d, %d, want %X", s, got, odd, e, b)
				}
				if got, odd, e := engine.All("UTF-32BE", s, b); !bytes.Equal(got, wide) || odd != 0 || e != api.OK {
					t.Errorf("All from %s: %X, %d, %d, want %X", s, got, odd, e, wide)
				}
			}
		}
	}
}

// Promise 25.1: what is wished for, of to alone.

// sorts is what may stand behind a name, by whether it asks for translit and ignore.
var sorts = []struct {
	wishes           string
	translit, ignore bool
}{
	{"", false, false},
	{"//", false, false},
	{"////", false, false},
	{"//TRANSLIT", true, false},
	{"//translit//TRANSLIT", true, false},
	{"////Translit//", true, false},
	{"//IGNORE", false, true},
	{"//ignore//Ignore", false, true},
	{"//IGNORE//", false, true},
	{"//TRANSLIT//IGNORE", true, true},
	{"//IGNORE//TRANSLIT", true, true},
	{"//ignore////translit//IGNORE", true, true},
}

func TestWishes(t *testing.T) {
	for _, to := range sorts {
		for _, from := range sorts {
			a, b := "ISO-8859-1"+to.wishes, "UTF-8"+from.wishes
			euro := takes("\u20AC!", 9, 0, "", 0, api.Illegal)
			han := takes("\u4E00!", 9, 0, "", 0, api.Illegal)
			wrong := takes("\xFF!", 9, 0, "", 0, api.Illegal)
			if to.ignore {
				euro = takes("\u20AC!", 9, 4, "!", 0, api.Illegal)
				han = takes("\u4E00!", 9, 4, "!", 0, api.Illegal)
				wrong = takes("\xFF!", 9, 2, "!", 0, api.Illegal)
			}
			if to.translit {
				euro = takes("\u20AC!", 9, 4, "EUR!", 1, api.OK)
			}
			plays(t, a, b, takes("\u00E4", 9, 2, "\xE4", 0, api.OK), euro, han, wrong, takes("", 9, 0, "", 0, api.OK))
		}
	}
}

// Promise 25.1: Close and Live.

func TestClose(t *testing.T) {
	p := newPair(t)
	for range 5 {
		p.must("UTF-8", "UTF-8")
	}
	closes := func(h int, want api.Errno) {
		t.Helper()
		if e := p.close(h); e != want {
			t.Errorf("Close(%d): %d, want %d", h, e, want)
		}
	}
	for _, h := range append(strangeNumbers, 6, 7, 64) {
		closes(h, api.ErrState)
	}
	p.live()
	closes(3, api.OK)
	closes(3, api.ErrState)
	closes(5, api.OK)
	closes(1, api.OK)
	for _, h := range []int{1, 3, 5} {
		closes(h, api.ErrState)
		if d := p.convert(h, []byte("A"), 9); !same(d, engine.Done{Err: api.ErrState}) {
			t.Errorf("Convert(%d), closed: %+v", h, d)
		}
		if d := p.reset(h, 9); !same(d, engine.Done{Err: api.ErrState}) {
			t.Errorf("Reset(%d), closed: %+v", h, d)
		}
	}
	if l := p.live(); !slices.Equal(l, []int{2, 4}) {
		t.Errorf("Live: %d", l)
	}
	for _, h := range []int{2, 4} {
		if d := p.convert(h, []byte("A"), 9); !same(d, engine.Done{Took: 1, Out: []byte("A")}) {
			t.Errorf("Convert(%d), open: %+v", h, d)
		}
	}
}

func TestLiveIsNew(t *testing.T) {
	p := newPair(t)
	for range 9 {
		p.must("UTF-8", "UTF-8")
	}
	a, b := p.live(), p.live()
	spoil(a, -7)
	if !slices.Equal(b, []int{1, 2, 3, 4, 5, 6, 7, 8, 9}) {
		t.Errorf("another answer of Live: %d", b)
	}
	spoil(b, 3)
	p.live()
	if h := p.must("UTF-8", "UTF-8"); h != 10 {
		t.Errorf("Open: %d", h)
	}
	if e := p.close(1); e != api.OK {
		t.Errorf("Close(1): %d", e)
	}
	p.live()
}

// Promise 25.1: a number that is open again is a new conversion.

func TestOpenedAgain(t *testing.T) {
	for _, c := range []struct {
		to, from, first, then, want string
	}{
		{"UTF-16", "UTF-8", "A", "B", "\xFE\xFF\x00B"},
		{"UTF-8", "UTF-16", "\xFF\xFEA\x00", "\x00B", "B"},
		{"UTF-8", "CP1258", "A", "\xCC", "\u0300"},
		{"ISO-2022-JP", "UTF-8", "\u3042", "\u3042", "\x1B$B$\""},
		{"UTF-8", "HZ", "~{", "A", "A"},
		{"ASCII//IGNORE", "UTF-8", "\u3042\xE3", "A", "A"},
	} {
		p := newPair(t)
		h := p.must(c.to, c.from)
		p.convert(h, []byte(c.first), enough)
		p.close(h)
		if again := p.must(c.to, c.from); again != h {
			t.Fatalf("Open: %d, want %d", again, h)
		}
		if d := p.convert(h, []byte(c.then), enough); string(d.Out) != c.want || d.Took != len(c.then) || d.Err != api.OK {
			t.Errorf("from %s to %s, opened again: %+v, want %X", c.from, c.to, d, c.want)
		}
	}
}

// Tables and conversions do not touch one another.

func TestApart(t *testing.T) {
	p, q := newPair(t), newPair(t)
	a := p.must("ISO-2022-JP", "UTF-8")
	b := p.must("ISO-2022-JP//IGNORE", "UTF-8")
	c := q.must("ISO-2022-JP//TRANSLIT", "UTF-8")
	if a != 1 || b != 2 || c != 1 {
		t.Fatalf("Open: %d, %d and %d", a, b, c)
	}
	is := func(d engine.Done, out string, odd int, e api.Errno) {
		t.Helper()
		if string(d.Out) != out || d.Odd != odd || d.Err != e {
			t.Errorf("%+v, want %X, %d, %d", d, out, odd, e)
		}
	}
	is(p.convert(a, []byte("\u3042"), 9), "\x1B$B$\"", 0, api.OK)
	is(q.convert(c, []byte("x\u20AC"), 9), "xEUR", 1, api.OK)
	is(p.convert(b, []byte("\xFFA\xE3"), 9), "A", 0, api.More)
	is(p.convert(a, []byte("\u3044"), 9), "$$", 0, api.OK)
	is(q.convert(c, []byte("\u3042"), 9), "\x1B$B$\"", 0, api.OK)
	is(p.convert(a, nil, 9), "", 0, api.OK)
	is(p.reset(a, 9), "\x1B(B", 0, api.OK)
	is(q.convert(c, []byte("\u3044"), 9), "$$", 0, api.OK)
	is(p.convert(b, nil, 9), "", 0, api.Illegal)
	p.close(a)
	is(q.reset(c, 9), "\x1B(B", 0, api.OK)
	is(p.convert(b, []byte("B"), 9), "B", 0, api.OK)
	q.close(c)
	is(p.reset(b, 9), "", 0, api.OK)
	if l := q.live(); len(l) != 0 {
		t.Errorf("Live: %d", l)
	}
	if l := p.live(); !slices.Equal(l, []int{2}) {
		t.Errorf("Live: %d", l)
	}
}

// Promise 25.2: what Convert refuses.

func TestConvertRefuses(t *testing.T) {
	p := newPair(t)
	h := p.must("UTF-16//IGNORE", "UTF-8")
	if d := p.convert(h, []byte("\xFFA\xC3"), 9); d.Err != api.More || d.Took != 2 {
		t.Fatalf("Convert: %+v", d)
	}
	long := bytes.Repeat([]byte("A"), 1<<20+1)
	refuses := func(h int, in []byte, room int, want api.Errno) {
		t.Helper()
		if d := p.convert(h, in, room); !same(d, engine.Done{Err: want}) {
			t.Errorf("Convert(%d, %d bytes, %d): %+v, want error %d", h, len(in), room, d, want)
		}
	}
	rooms := []int{-1, -2, -64, -1 << 32, math.MinInt}
	for _, none := range append(strangeNumbers, 2, 64) {
		for _, in := range [][]byte{nil, []byte("A"), long} {
			refuses(none, in, 9, api.ErrState)
			refuses(none, in, 0, api.ErrState)
			for _, room := range rooms {
				refuses(none, in, room, api.ErrState)
			}
		}
	}
	for _, in := range [][]byte{long, append(long, 'A'), append(long, long...)} {
		refuses(h, in, enough, api.ErrLong)
		refuses(h, in, 0, api.ErrLong)
		for _, room := range rooms {
			refuses(h, in, room, api.ErrLong)
		}
	}
	for _, room := range rooms {
		refuses(h, nil, room, api.ErrRange)
		refuses(h, []byte("A"), room, api.ErrRange)
		refuses(h, long[:1<<20], room, api.ErrRange)
	}
	// Nothing was changed: the mark is not written again, and what was passed over is still to be told.
	if d := p.convert(h, []byte("\u00C4"), 9); !same(d, engine.Done{Took: 2, Out: []byte("\x00\xC4"), Err: api.Illegal}) {
		t.Errorf("Convert behind what was refused: %+v", d)
	}
}

func TestConvertLongest(t *testing.T) {
	for _, c := range []struct{ to, from, unit, out string }{
		{"UTF-8", "ASCII", "A", "A"},
		{"UTF-32LE", "UTF-16BE", "\x00\xE4", "\xE4\x00\x00\x00"},
		{"EUC-JP", "UTF-32BE", "\x00\x00\x30\x42", "\xA4\xA2"},
		{"ASCII//TRANSLIT", "WINDOWS-1252", "\x80", "EUR"},
		{"ASCII//IGNORE", "WINDOWS-1252", "\x80", ""},
	} {
		t.Run(c.from+" "+c.to, func(t *testing.T) {
			t.Parallel()
			times := 1 << 20 / len(c.unit)
			in := bytes.Repeat([]byte(c.unit), times)
			want := engine.Done{Took: 1 << 20, Out: bytes.Repeat([]byte(c.out), times)}
			if strings.Contains(c.to, "TRANSLIT") {
				want.Odd = times
			}
			if strings.Contains(c.to, "IGNORE") {
				want.Err = api.Illegal
			}
			x := engine.New()
			h, _ := x.Open(c.to, c.from)
			if d := x.Convert(h, in, len(want.Out)); !same(d, want) {
				t.Errorf("Convert: %d, %d bytes, %d, error %d", d.Took, len(d.Out), d.Odd, d.Err)
			}
			if d := x.Convert(h, append(in, 'A'), enough); !same(d, engine.Done{Err: api.ErrLong}) {
				t.Errorf("Convert of one more: %d, %d bytes, %d, error %d", d.Took, len(d.Out), d.Odd, d.Err)
			}
			b, odd, e := engine.All(c.to, c.from, in)
			if !bytes.Equal(b, want.Out) || odd != want.Odd || e != want.Err {
				t.Errorf("All: %d bytes, %d, error %d", len(b), odd, e)
			}
		})
	}
}

// Promise 25.2: no bytes.

func TestConvertOfNothing(t *testing.T) {
	for _, kind := range names.Kinds() {
		name := names.Name(kind)
		for _, room := range []int{0, 1, 64, enough} {
			plays(t, name, "UTF-8", takes("", room, 0, "", 0, api.OK), takes("", 0, 0, "", 0, api.OK))
			plays(t, "UTF-8//TRANSLIT//IGNORE", name, takes("", room, 0, "", 0, api.OK), ends(room, "", 0, api.OK))
		}
	}
	plays(t, "ASCII//IGNORE", "UTF-8",
		takes("\u00E4\xC3", 9, 2, "", 0, api.More),
		takes("", 0, 0, "", 0, api.Illegal),
		takes("", 0, 0, "", 0, api.OK),
		takes("\xC3", 0, 0, "", 0, api.More),
		takes("", 0, 0, "", 0, api.OK))
	plays(t, "ASCII//IGNORE", "UTF-8",
		takes("\xFFA", 0, 1, "", 0, api.Full),
		takes("", enough, 0, "", 0, api.Illegal),
		takes("", enough, 0, "", 0, api.OK),
		takes("A", enough, 1, "A", 0, api.OK))
	plays(t, "ASCII", "UTF-8",
		takes("\xFF", 9, 0, "", 0, api.Illegal),
		takes("", 9, 0, "", 0, api.OK),
		takes("\u00E4", 9, 0, "", 0, api.Illegal),
		takes("", 9, 0, "", 0, api.OK))
}

// pool is scalars that some kinds have places for, and some have not; none is a mark of windows-1258.
var pool = []rune("AaEz0~\\+-!&\n\u007F\u0080\u00A0\u00A1\u00A5\u00A9\u00B1\u00BF\u00C0\u00C2\u00D1\u00E4\u00E9\u00F4\u00FF" +
	"\u0102\u0103\u0110\u0131\u0141\u0152\u0161\u0178\u01A0\u01B0\u0218\u0386\u03B1\u03C9\u0401\u0411\u044F\u0454\u05D0\u05EA\u060C\u0627\u064A\u0E01\u0E5B" +
	"\u1E02\u1EA4\u1EF9\u2013\u2019\u201C\u2022\u2026\u203E\u20A9\u20AB\u20AC\u2122\u2190\u221E\u2260\u2500\u2588\u25A0\u3000\u3001\u3042\u30A2" +
	"\u4E00\u4E9C\u554A\u56FD\u9F9C\uAC00\uD55C\uD7A3\uE000\uFEFF\uFF01\uFF21\uFF3C\uFF5E\uFF71\uFF9F\uFFFD\U0001F600\U0010FFFF")

// placesOfAll is places, by kinds, found once.
var placesOfAll = sync.OnceValue(func() [][]rune {
	all := make([][]rune, api.MostKind+1)
	for _, kind := range names.Kinds() {
		for _, u := range pool {
			if codec.Set(kind, api.State{}, u).Err == api.OK {
				all[kind] = append(all[kind], u)
			}
		}
	}
	return all
})

// places is those of the pool that a kind has places for.
func places(kind int) []rune { return placesOfAll()[kind] }

// shared is those of the pool that both kinds have places for.
func shared(from, to int) []rune {
	var all []rune
	for _, u := range places(from) {
		if slices.Contains(places(to), u) {
			all = append(all, u)
		}
	}
	return all
}

// eachKind runs a test for each kind at once.
func eachKind(t *testing.T, test func(t *testing.T, kind int)) {
	for _, kind := range names.Kinds() {
		t.Run(names.Name(kind), func(t *testing.T) {
			t.Parallel()
			test(t, kind)
		})
	}
}

// Promises 25.2 and 25.4: whole texts between all pairs of kinds.

func TestPairs(t *testing.T) {
	eachKind(t, func(t *testing.T, from int) {
		for _, to := range names.Kinds() {
			text := shared(from, to)
			if len(text) < 3 {
				t.Fatalf("%d and %d have only %X", from, to, text)
			}
			in, e := codec.Encode(from, text)
			l, f := codec.Decode(from, in)
			want, g := codec.Encode(to, l)
			if e != api.OK || f != api.OK || g != api.OK {
				t.Fatalf("from %d to %d: %d, %d and %d", from, to, e, f, g)
			}
			// What is wished for does not matter, where nothing is wrong.
			wishes := sorts[(from+to)%len(sorts)].wishes
			b, odd, e := engine.All(names.Name(to)+wishes, names.Name(from), in)
			if !bytes.Equal(b, want) || odd != 0 || e != api.OK {
				t.Errorf("All from %d to %d, %s: %X, %d, %d, want %X", from, to, wishes, b, odd, e, want)
			}
			p := newPair(t)
			h := p.must(names.Name(to), names.Name(from))
			d := p.convert(h, in, len(want))
			last := p.reset(h, len(want)-len(d.Out))
			if d.Took != len(in) || d.Err != api.OK || last.Err != api.OK || !bytes.Equal(slices.Concat(d.Out, last.Out), want) {
				t.Errorf("from %d to %d: %+v and %+v, want %X", from, to, d, last, want)
			}
		}
	})
}

// Promises 25.2 and 25.4: texts of all sorts are what codec decodes and encodes, as far as it does.

func TestAgainstCodec(t *testing.T) {
	eachKind(t, func(t *testing.T, from int) {
		r := rand.New(rand.NewPCG(25, uint64(from)))
		for range 300 {
			to := names.Kinds()[r.IntN(56)]
			in := someText(r, from, 12)
			l, e := codec.Decode(from, in)
			want, f := codec.Encode(to, l)
			b, odd, g := engine.All(names.Name(to), names.Name(from), in)
			switch {
			case odd != 0:
				t.Fatalf("All from %d to %d of %X: %d odd", from, to, in, odd)
			case e == api.OK && f == api.OK:
				if !bytes.Equal(b, want) || g != api.OK {
					t.Fatalf("All from %d to %d of %X: %X, %d, want %X", from, to, in, b, g, want)
				}
			case e == api.OK && g != api.Illegal, e != api.OK && g != e && g != api.Illegal:
				t.Fatalf("All from %d to %d of %X: %d, but Decode %d and Encode %d", from, to, in, g, e, f)
			}
		}
	})
}

// telling is bytes with which something begins, goes on or ends in some kind.
var telling = []byte{0x00, 0x0A, 0x0E, 0x0F, 0x1B, 0x20, 0x21, 0x22, 0x24, 0x28, 0x29, 0x2B, 0x2D, 0x30, 0x40, 0x41, 0x42, 0x43, 0x4A, 0x5C, 0x61, 0x77, 0x7B, 0x7D, 0x7E, 0x7F, 0x80, 0x81, 0x82, 0x88, 0x8E, 0x9F, 0xA0, 0xA1, 0xA4, 0xB0, 0xBF, 0xC2, 0xCC, 0xD8, 0xDC, 0xDF, 0xE0, 0xEC, 0xED, 0xEF, 0xF0, 0xF4, 0xFC, 0xFE, 0xFF}

// someText is bytes of a kind: scalars of it, with or without bytes of all sorts between.
func someText(r *rand.Rand, kind int, most int) []byte {
	var all []byte
	var s api.State
	places := places(kind)
	wrong := r.IntN(3)
	for range r.IntN(most + 1) {
		switch r.IntN(12) {
		case 0:
			last, behind, _ := codec.End(kind, s)
			all = append(all, last...)
			s = behind
		case 1, 2, 3:
			if r.IntN(3) < wrong {
				all = append(all, telling[r.IntN(len(telling))])
				continue
			}
			fallthrough
		default:
			p := codec.Set(kind, s, places[r.IntN(len(places))])
			all = append(all, p.Bytes...)
			s = p.S
		}
	}
	if wrong > 0 && len(all) > 0 && r.IntN(3) == 0 {
		all = all[:r.IntN(len(all))]
	}
	return all
}

// someWishes is what may be asked for, as often one as the other.
func someWishes(r *rand.Rand) string {
	return []string{"", "//TRANSLIT", "//IGNORE", "//TRANSLIT//IGNORE"}[r.IntN(4)]
}

// W1 and W3: every scalar, of every kind, there and back.

// everyScalar is all scalars, rising, but the marks of windows-1258.
func everyScalar(kind int) []rune {
	last := rune(0xFFFF)
	if kind == api.UTF8 || kind == api.UTF7 || kind == api.UTF16 {
		last = 0x10FFFF
	}
	var all []rune
	for u := rune(0); u <= last; u++ {
		mark := u == 0x300 || u == 0x301 || u == 0x303 || u == 0x309 || u == 0x323
		if !mark && (u < 0xD800 || u > 0xDFFF) {
			all = append(all, u)
		}
	}
	return all
}

func TestEveryScalar(t *testing.T) {
	eachKind(t, func(t *testing.T, kind int) {
		name := names.Name(kind)
		for all := everyScalar(kind); len(all) > 0; {
			text := all[:min(len(all), api.MaxIn/4)]
			all = all[len(text):]
			var has []rune
			var want []byte
			var s api.State
			for _, u := range text {
				if p := codec.Set(kind, s, u); p.Err == api.OK {
					has = append(has, u)
					want = append(want, p.Bytes...)
					s = p.S
				}
			}
			last, _, _ := codec.End(kind, s)
			want = append(want, last...)
			told := api.OK
			if len(has) < len(text) {
				told = api.Illegal
			}
			in, _ := codec.Encode(api.UTF32BE, text)
			b, odd, e := engine.All(name+"//IGNORE", "UTF-32BE", in)
			if !bytes.Equal(b, want) || odd != 0 || e != told {
				t.Fatalf("All to %s: %d bytes, %d, %d, want %d, error %d", name, len(b), odd, e, len(want), told)
			}
			back := backFrom(t, name, b)
			if want, _ := codec.Encode(api.UTF32BE, has); !bytes.Equal(back, want) {
				t.Fatalf("back from %s: %d bytes, want %d", name, len(back), len(want))
			}
		}
	})
}

// backFrom converts to UTF-32BE, in pieces that are no longer than an input may be.
func backFrom(t *testing.T, name string, b []byte) []byte {
	t.Helper()
	x := engine.New()
	h, _ := x.Open("UTF-32BE", name)
	var all []byte
	for len(b) > 0 {
		d := x.Convert(h, b[:min(len(b), api.MaxIn)], 1<<19)
		if d.Err != api.OK && d.Err != api.Full && d.Err != api.More || d.Took == 0 {
			t.Fatalf("back from %s: %d, %d", name, d.Took, d.Err)
		}
		all = append(all, d.Out...)
		b = b[d.Took:]
	}
	last := x.Reset(h, 64)
	if last.Err != api.OK {
		t.Fatalf("back from %s: Reset %d", name, last.Err)
	}
	return append(all, last.Out...)
}

// Promise 25.2: texts that end within a unit, and go on.

func TestMoreByEye(t *testing.T) {
	for _, c := range []struct{ from, ahead, front, rest, out string }{
		{"UTF-8", "A", "\xC3", "\xA4", "A\u00E4"},
		{"UTF-8", "", "\xE2", "\x82\xAC", "\u20AC"},
		{"UTF-8", "\u00E4", "\xE2\x82", "\xAC", "\u00E4\u20AC"},
		{"UTF-8", "", "\xF0", "\x9F\x98\x80", "\U0001F600"},
		{"UTF-8", "", "\xF0\x9F", "\x98\x80", "\U0001F600"},
		{"UTF-8", "A", "\xF0\x9F\x98", "\x80", "A\U0001F600"},
		{"UTF-16BE", "\x00A", "\x00", "B", "AB"},
		{"UTF-16BE", "", "\xD8", "\x3D\xDE\x00", "\U0001F600"},
		{"UTF-16BE", "", "\xD8\x3D", "\xDE\x00", "\U0001F600"},
		{"UTF-16LE", "", "\x3D\xD8\x00", "\xDE", "\U0001F600"},
		{"UTF-16", "", "\xFE", "\xFF\x00A", "A"},
		{"UTF-16", "\xFF\xFE", "A", "\x00", "A"},
		{"UTF-32BE", "\x00\x00\x00A", "\x00\x00\x20", "\xAC", "A\u20AC"},
		{"UTF-32LE", "", "\xAC", "\x20\x00\x00", "\u20AC"},
		{"UTF-32", "", "\x00\x00\xFE", "\xFF\x00\x00\x00A", "A"},
		{"UCS-2BE", "", "\x00", "A", "A"},
		{"UCS-2LE", "A\x00", "B", "\x00", "AB"},
		{"EUC-JP", "A", "\xA4", "\xA2", "A\u3042"},
		{"EUC-JP", "", "\x8E", "\xB1", "\uFF71"},
		{"SHIFT_JIS", "A", "\x82", "\xA0", "A\u3042"},
		{"EUC-CN", "", "\xB0", "\xA1", "\u554A"},
		{"EUC-KR", "", "\xB0", "\xA1", "\uAC00"},
		{"JOHAB", "", "\xD0", "\x65", "\uD55C"},
		{"HZ", "A", "~", "{0!", "A\u554A"},
		{"HZ", "A~{", "0", "!", "A\u554A"},
		{"HZ", "A~{0!", "~", "}B", "A\u554AB"},
		{"ISO-2022-JP", "A", "\x1B", "$B$\"", "A\u3042"},
		{"ISO-2022-JP", "A", "\x1B$", "B$\"", "A\u3042"},
		{"ISO-2022-JP", "A\x1B$B", "$", "\"", "A\u3042"},
		{"ISO-2022-KR", "", "\x1B$)", "C\x0E0!", "\uAC00"},
		{"ISO-2022-KR", "\x1B$)C\x0E", "0", "!\x0FA", "\uAC00A"},
	} {
		p := newPair(t)
		h := p.must("UTF-8", c.from)
		d := p.convert(h, []byte(c.ahead+c.front), 9)
		if d.Took != len(c.ahead) || d.Err != api.More {
			t.Errorf("%s, %X and %X: %+v, want More", c.from, c.ahead, c.front, d)
		}
		if again := p.convert(h, []byte(c.front), 9); !same(again, engine.Done{Err: api.More}) {
			t.Errorf("%s, %X alone: %+v, want More", c.from, c.front, again)
		}
		rest := p.convert(h, []byte(c.front+c.rest), 9)
		if rest.Took != len(c.front+c.rest) || rest.Err != api.OK || string(d.Out)+string(rest.Out) != c.out {
			t.Errorf("%s, %X and %X: %+v, want %q in all", c.from, c.front, c.rest, rest, c.out)
		}
	}
}

func TestMoreAnywhere(t *testing.T) {
	eachKind(t, func(t *testing.T, kind int) {
		text := places(kind)
		in, _ := codec.Encode(kind, text)
		want, _ := codec.Encode(api.UTF8, text)
		for cut := range len(in) + 1 {
			p := newPair(t)
			h := p.must("UTF-8", names.Name(kind))
			a := p.convert(h, in[:cut], enough)
			b := p.convert(h, in[a.Took:], enough)
			last := p.reset(h, enough)
			if a.Err != api.OK && a.Err != api.More || (a.Err == api.OK) != (a.Took == cut) || cut-a.Took > 3 {
				t.Fatalf("%d, cut at %d: %+v", kind, cut, a)
			}
			if b.Err != api.OK || a.Took+b.Took != len(in) || !bytes.Equal(slices.Concat(a.Out, b.Out, last.Out), want) {
				t.Fatalf("%d, cut at %d: %+v, %+v and %+v", kind, cut, a, b, last)
			}
		}
	})
}

// Promise 25.2: rooms.

func TestRoomsByEye(t *testing.T) {
	text := "A\u00E4\u20AC"
	for room, want := range []engine.Done{
		{0, nil, 0, api.Full},
		{1, []byte("A"), 0, api.Full},
		{1, []byte("A"), 0, api.Full},
		{3, []byte("A\u00E4"), 0, api.Full},
		{3, []byte("A\u00E4"), 0, api.Full},
		{3, []byte("A\u00E4"), 0, api.Full},
		{6, []byte("A\u00E4\u20AC"), 0, api.OK},
		{6, []byte("A\u00E4\u20AC"), 0, api.OK},
	} {
		plays(t, "UTF-8", "UTF-8", takes(text, room, want.Took, string(want.Out), 0, want.Err))
	}
	plays(t, "UTF-16", "UTF-8",
		takes("AB", 3, 0, "", 0, api.Full),
		takes("AB", 4, 1, "\xFE\xFF\x00A", 0, api.Full),
		takes("B", 1, 0, "", 0, api.Full),
		takes("B", 2, 1, "\x00B", 0, api.OK))
	plays(t, "UTF-8", "UTF-16",
		takes("\xFF\xFEA\x00", 0, 2, "", 0, api.Full),
		takes("A\x00", 1, 2, "A", 0, api.OK))
	plays(t, "ISO-2022-JP", "UTF-8",
		takes("\u3042\u3042", 4, 0, "", 0, api.Full),
		takes("\u3042\u3042", 6, 3, "\x1B$B$\"", 0, api.Full),
		takes("\u3042", 2, 3, "$\"", 0, api.OK),
		takes("A", 3, 0, "", 0, api.Full),
		takes("A", 4, 1, "\x1B(BA", 0, api.OK))
	plays(t, "ASCII//TRANSLIT", "UTF-8",
		takes("\u20AC\u20AC", 2, 0, "", 0, api.Full),
		takes("\u20AC\u20AC", 5, 3, "EUR", 1, api.Full),
		takes("\u20AC", 3, 3, "EUR", 1, api.OK))
	plays(t, "UTF-8", "HZ",
		takes("~{0!~}", 0, 2, "", 0, api.Full),
		takes("0!~}", 3, 4, "\u554A", 0, api.OK))
	plays(t, "UTF-8", "ISO-2022-KR",
		takes("\x1B$)C\x0E", 0, 5, "", 0, api.OK),
		takes("0!\x0F", 2, 0, "", 0, api.Full),
		takes("0!\x0F", 3, 3, "\uAC00", 0, api.OK))
}

// TestEveryRoom goes on under a room of any size, till all is taken.
func TestEveryRoom(t *testing.T) {
	eachKind(t, func(t *testing.T, kind int) {
		text := places(kind)
		in, _ := codec.Encode(api.UTF8, text)
		want, _ := codec.Encode(kind, text)
		for room := range 20 {
			p := newPair(t)
			h := p.must(names.Name(kind), "UTF-8")
			var out []byte
			for left := in; len(left) > 0; {
				d := p.convert(h, left, room)
				if d.Err != api.OK && d.Err != api.Full || d.Took == 0 && room >= 8 {
					t.Fatalf("to %d, room %d: %+v", kind, room, d)
				}
				if d.Took == 0 {
					// A step that needs more than this room: one with just enough, and none with less.
					more := room
					for d.Err == api.Full && d.Took == 0 {
						more++
						d = p.convert(h, left, more)
					}
				}
				out = append(out, d.Out...)
				left = left[d.Took:]
			}
			out = append(out, p.reset(h, 16).Out...)
			if !bytes.Equal(out, want) {
				t.Fatalf("to %d, room %d: %X, want %X", kind, room, out, want)
			}
		}
	})
}

// Promise 25.2: a step that gets two scalars is done as a whole.

func TestTwoScalars(t *testing.T) {
	// The second one has no place.
	plays(t, "ASCII", "CP1258",
		takes("A", 9, 1, "", 0, api.OK),
		takes("\x80", 9, 0, "", 0, api.Illegal),
		takes("\x80", 0, 0, "", 0, api.Illegal),
		takes("\x80", 1, 0, "", 0, api.Illegal),
		takes("!", 9, 1, "A!", 0, api.OK))
	// The first one has none.
	plays(t, "ASCII", "CP1258",
		takes("x\xC2!", 9, 2, "x", 0, api.Illegal),
		takes("!", 0, 0, "", 0, api.Illegal),
		ends(9, "", 0, api.Illegal))
	// The second one has no room.
	plays(t, "UTF-8", "CP1258",
		takes("A\x80", 0, 1, "", 0, api.Full),
		takes("\x80", 1, 0, "", 0, api.Full),
		takes("\x80", 3, 0, "", 0, api.Full),
		takes("\x80", 4, 1, "A\u20AC", 0, api.OK),
		ends(0, "", 0, api.OK))
	// The one is written by another, the other by itself; or both by others.
	plays(t, "ASCII//TRANSLIT", "CP1258",
		takes("\xC2B", 1, 1, "", 0, api.Full),
		takes("B", 2, 1, "AB", 1, api.OK),
		takes("E\x80", 9, 2, "EEUR", 1, api.OK),
		takes("\xC2\x80", 3, 1, "", 0, api.Full),
		takes("\x80", 4, 1, "AEUR", 2, api.OK),
		takes("", 0, 0, "", 0, api.OK))
	// The one is passed over, the other written, or both are passed over.
	plays(t, "ASCII//IGNORE", "CP1258",
		takes("\xC2B", 9, 2, "B", 0, api.Illegal),
		takes("A\x80", 9, 2, "A", 0, api.Illegal),
		takes("\xC2\x80", 0, 2, "", 0, api.Illegal),
		takes("", 0, 0, "", 0, api.OK))
	// What has no room is not passed over either.
	plays(t, "ASCII//IGNORE", "CP1258",
		takes("\xC2B", 0, 1, "", 0, api.Full),
		takes("", 0, 0, "", 0, api.OK),
		takes("B", 0, 0, "", 0, api.Full),
		ends(0, "", 0, api.Illegal),
		takes("B", 1, 1, "B", 0, api.OK))
	// With both, what can be written is not passed over.
	plays(t, "KOI8-R//TRANSLIT//IGNORE", "CP1258",
		takes("\xC2\x80", 9, 2, "AEUR", 2, api.OK),
		takes("\xC2\xA4", 9, 2, "A", 1, api.Illegal),
		takes("", 9, 0, "", 0, api.OK))
	// The second one is written from the state behind the first one.
	plays(t, "UTF-16", "CP1258", takes("AB", 5, 1, "", 0, api.Full), takes("B", 6, 1, "\xFE\xFF\x00A\x00B", 0, api.OK))
	plays(t, "UTF-7", "CP1258", takes("\xC2\x80", 9, 2, "+AMIgr", 0, api.OK), ends(9, "A-", 0, api.OK))
}

// Promise 25.2: what is illegal.

func TestIllegalByEye(t *testing.T) {
	for _, c := range []struct {
		from, ahead, wrong, behind, out string
	}{
		{"UTF-8", "", "\xFF", "", ""},
		{"UTF-8", "", "\xFF", "A", "A"},
		{"UTF-8", "A", "\x80", "B", "AB"},
		{"UTF-8", "A\u00E4", "\xC0", "", "A\u00E4"},
		{"UTF-8", "A", "\xE2\x82", "A", "AA"},
		{"UTF-8", "A", "\xF0\x9F\x98", "A", "AA"},
		{"UTF-8", "", "\xED", "A", "A"},
		{"ASCII", "A", "\xE4", "B", "AB"},
		{"ISO-8859-3", "A", "\xA5", "B", "AB"},
		{"UTF-16BE", "\x00A", "\xDC\x00", "\x00B", "AB"},
		{"UTF-16LE", "", "\x3D\xD8", "A\x00", "A"},
		{"UTF-32BE", "\x00\x00\x00A", "\x00\x11\x00\x00", "\x00\x00\x00B", "AB"},
		{"UCS-2BE", "\x00A", "\xD8\x3D", "\x00B", "AB"},
		{"EUC-JP", "A", "\xFF", "B", "AB"},
		{"SHIFT_JIS", "A", "\xA0", "B", "AB"},
		{"JOHAB", "A", "\xFF", "B", "AB"},
		{"HZ", "A", "~", "AB", "AAB"},
		{"ISO-2022-JP", "A", "\x1B", ")B", "A)B"},
		{"ISO-2022-KR", "", "\x0E", "A", "A"},
		{"UTF-7", "A", "~", "B", "AB"},
	} {
		in := c.ahead + c.wrong + c.behind
		stop := takes(in, 99, len(c.ahead), c.out[:len(c.out)-passedBy(t, c.from, c.behind)], 0, api.Illegal)
		again := takes(c.wrong+c.behind, 99, 0, "", 0, api.Illegal)
		plays(t, "UTF-8", c.from, stop, again, again)
		plays(t, "UTF-8//TRANSLIT", c.from, stop, again, again)
		all := takes(in, 99, len(in), c.out, 0, api.Illegal)
		plays(t, "UTF-8//IGNORE", c.from, all, takes("", 99, 0, "", 0, api.OK))
		plays(t, "UTF-8//TRANSLIT//IGNORE", c.from, all, ends(99, "", 0, api.OK))
	}
}

// passedBy is how many bytes of UTF-8 a text of a kind comes to, in a conversion that begins with it.
func passedBy(t *testing.T, kind, text string) int {
	t.Helper()
	b, _, e := engine.All("UTF-8", kind, []byte(text))
	if e != api.OK {
		t.Fatalf("All from %s of %X: %d", kind, text, e)
	}
	return len(b)
}

// TestIllegalStates has the state of reading that of the step, where bytes are passed over.
func TestIllegalStates(t *testing.T) {
	// UTF-7 leads back: a stretch goes on as plain bytes.
	plays(t, "UTF-8//IGNORE", "UTF-7",
		takes("+AOQ~AOQ-", 99, 9, "\u00E4AOQ-", 0, api.Illegal),
		takes("+AOQ", 99, 4, "\u00E4", 0, api.OK),
		takes("~", 99, 1, "", 0, api.Illegal),
		takes("AOQ", 99, 3, "AOQ", 0, api.OK))
	// The mark at the front is none any more behind what is illegal.
	plays(t, "UTF-8//IGNORE", "UTF-16", takes("\xDC\x00\xFF\xFE\x00A", 99, 6, "\uFFFEA", 0, api.Illegal))
	plays(t, "UTF-8//IGNORE", "UTF-16",
		takes("\xDC\x00", 99, 2, "", 0, api.Illegal),
		takes("\xFF\xFE", 99, 2, "\uFFFE", 0, api.OK))
	plays(t, "UTF-8//IGNORE", "UTF-32",
		takes("\x00\x11\x00\x00", 99, 4, "", 0, api.Illegal),
		takes("\x00\x00\xFE\xFF", 99, 4, "\uFEFF", 0, api.OK))
	// Without ignore nothing of it is taken, nor is the state changed.
	plays(t, "UTF-8", "UTF-16",
		takes("\xDC\x00", 99, 0, "", 0, api.Illegal),
		takes("\xFF\xFEA\x00", 99, 4, "A", 0, api.OK))
	plays(t, "UTF-8", "UTF-7",
		takes("+AOQ~", 99, 4, "\u00E4", 0, api.Illegal),
		takes("AOQ-", 99, 4, "9", 0, api.OK),
		takes("AOQ-", 99, 4, "AOQ-", 0, api.OK))
	// A letter is held still.
	plays(t, "UTF-8//IGNORE", "CP1258",
		takes("A\x81\xCC", 99, 3, "\u00C0", 0, api.Illegal),
		takes("A", 99, 1, "", 0, api.OK),
		takes("\x81", 99, 1, "", 0, api.Illegal),
		ends(99, "A", 0, api.OK))
	// A stretch goes on.
	plays(t, "UTF-8//IGNORE", "HZ", takes("~{0!\x800!~}A", 99, 10, "\u554A\u554AA", 0, api.Illegal))
	plays(t, "UTF-8//IGNORE", "ISO-2022-JP", takes("\x1B$B$\"\x80$\"\x1B(BA", 99, 12, "\u3042\u3042A", 0, api.Illegal))
	plays(t, "UTF-8//IGNORE", "ISO-2022-KR",
		takes("\x1B$)C\x0E0!", 99, 7, "\uAC00", 0, api.OK),
		takes("\x80", 99, 1, "", 0, api.Illegal),
		takes("0!\x0FA", 99, 4, "\uAC00A", 0, api.OK))
	// The header may still come.
	plays(t, "UTF-8//IGNORE", "ISO-2022-KR", takes("\x0E\x0F\x1B$)CA\x0E0!", 99, 10, "A\uAC00", 0, api.Illegal))
}

// TestIllegalWrites has the state of writing stay, where bytes are passed over.
func TestIllegalWrites(t *testing.T) {
	plays(t, "ISO-2022-JP//IGNORE", "UTF-8",
		takes("\u3042\xFF\u3042", 99, 7, "\x1B$B$\"$\"", 0, api.Illegal),
		takes("\xFF", 0, 1, "", 0, api.Illegal),
		ends(99, "\x1B(B", 0, api.OK))
	plays(t, "UTF-16//IGNORE", "UTF-8",
		takes("A", 99, 1, "\xFE\xFF\x00A", 0, api.OK),
		takes("\xFFB", 99, 2, "\x00B", 0, api.Illegal))
	plays(t, "UTF-7//IGNORE", "UTF-8",
		takes("\u00E4\xFF", 99, 3, "+AO", 0, api.Illegal),
		ends(99, "Q-", 0, api.OK))
}

// Promise 25.2: what has no place.

func TestNoPlaceByEye(t *testing.T) {
	// Euro has candidates; this letter of Han has none.
	text := "A\u20AC\u4E00B"
	plays(t, "ASCII", "UTF-8",
		takes(text, 99, 1, "A", 0, api.Illegal),
		takes("\u20AC\u4E00B", 99, 0, "", 0, api.Illegal),
		takes("\u20AC", 0, 0, "", 0, api.Illegal),
		takes("B", 99, 1, "B", 0, api.OK))
	plays(t, "ASCII//TRANSLIT", "UTF-8",
		takes(text, 99, 4, "AEUR", 1, api.Illegal),
		takes("\u4E00B", 99, 0, "", 0, api.Illegal),
		takes("\u4E00B", 0, 0, "", 0, api.Illegal),
		takes("B\u20AC\u20AC", 99, 7, "BEUREUR", 2, api.OK))
	plays(t, "ASCII//IGNORE", "UTF-8",
		takes(text, 99, 8, "AB", 0, api.Illegal),
		takes(text, 1, 7, "A", 0, api.Full),
		takes("\u4E00", 0, 3, "", 0, api.Illegal),
		takes("", 0, 0, "", 0, api.OK))
	plays(t, "ASCII//TRANSLIT//IGNORE", "UTF-8",
		takes(text, 99, 8, "AEURB", 1, api.Illegal),
		takes("\u20AC", 99, 3, "EUR", 1, api.OK),
		takes("\u4E00", 99, 3, "", 0, api.Illegal),
		takes("A", 99, 1, "A", 0, api.OK))
	// The first candidate that has places stands there.
	plays(t, "JIS_X0201//TRANSLIT", "UTF-8", takes("\u00A5\u20AC\u00A9", 99, 7, "\\EUR(C)", 2, api.OK))
	plays(t, "ISO-8859-15//TRANSLIT", "UTF-8", takes("\u20AC\uFF21\u2019", 99, 9, "\xA4A'", 2, api.OK))
	// What kinds have no place for, one by one.
	for _, c := range []struct{ to, in string }{
		{"UCS-2BE", "\U0001F600"},
		{"UCS-2LE", "\U00010000"},
		{"ISO-8859-1", "\u0100"},
		{"KOI8-R", "\u00C2"},
		{"WINDOWS-1258", "\u4E00"},
		{"IBM437", "\u4E00"},
		{"IBM037", "\u4E00"},
		{"EUC-JP", "\uAC00"},
		{"SHIFT_JIS", "\uAC00"},
		{"JOHAB", "\u0100"},
		{"HZ", "\uAC00"},
		{"ISO-2022-JP", "\x1B"},
		{"ISO-2022-KR", "\x0E"},
	} {
		plays(t, c.to, "UTF-8", takes(c.in, 99, 0, "", 0, api.Illegal), ends(99, "", 0, api.OK))
		plays(t, c.to+"//IGNORE", "UTF-8", takes(c.in, 0, len(c.in), "", 0, api.Illegal), ends(99, "", 0, api.OK))
	}
	// What is passed over leaves the state of writing.
	plays(t, "ISO-2022-JP//IGNORE", "UTF-8",
		takes("\u3042\uAC00\u3042", 99, 9, "\x1B$B$\"$\"", 0, api.Illegal),
		takes("\uAC00", 99, 3, "", 0, api.Illegal),
		takes("\u3042", 99, 3, "$\"", 0, api.OK))
	// What stands in a place changes it.
	plays(t, "ISO-2022-JP//TRANSLIT", "UTF-8",
		takes("\u3042\u20AC", 99, 6, "\x1B$B$\"\x1B(BEUR", 1, api.OK),
		takes("\u3042", 99, 3, "\x1B$B$\"", 0, api.OK))
	plays(t, "HZ//TRANSLIT", "UTF-8", takes("\u554A\u20AC\u554A", 99, 9, "~{0!~}EUR~{0!", 1, api.OK), ends(9, "~}", 0, api.OK))
}

// Promise 25.2: what was passed over is told by the call that takes all, and once.

func TestToldOnce(t *testing.T) {
	// Behind More.
	plays(t, "ASCII//IGNORE", "UTF-8",
		takes("\xFFA\xC3", 9, 2, "A", 0, api.More),
		takes("\xC3", 9, 0, "", 0, api.More),
		takes("B", 9, 1, "B", 0, api.Illegal),
		takes("C", 9, 1, "C", 0, api.OK))
	plays(t, "ASCII//IGNORE", "UTF-8",
		takes("\u00E4A\xC3", 9, 3, "A", 0, api.More),
		ends(9, "", 0, api.Illegal),
		takes("C", 9, 1, "C", 0, api.OK),
		ends(9, "", 0, api.OK))
	// Behind Full.
	plays(t, "ASCII//IGNORE", "UTF-8",
		takes("\u00E4AB", 1, 3, "A", 0, api.Full),
		takes("B", 0, 0, "", 0, api.Full),
		takes("B", 1, 1, "B", 0, api.Illegal),
		takes("C", 1, 1, "C", 0, api.OK))
	// Many at once are told once; each call tells its own.
	plays(t, "ASCII//IGNORE", "UTF-8",
		takes("\u00E4\xFF\u20ACx\xFF\xFF", 9, 9, "x", 0, api.Illegal),
		takes("\xFF", 9, 1, "", 0, api.Illegal),
		takes("\u00E4", 9, 2, "", 0, api.Illegal),
		takes("A", 9, 1, "A", 0, api.OK),
		takes("\xFF", 9, 1, "", 0, api.Illegal),
		ends(9, "", 0, api.OK))
	// Of a call that stops ahead of something, what was passed over is told later, also by a call that takes nothing.
	plays(t, "ASCII//IGNORE", "UTF-8",
		takes("\xFFA", 0, 1, "", 0, api.Full),
		takes("", 0, 0, "", 0, api.Illegal),
		takes("A", 9, 1, "A", 0, api.OK))
	// What a reset that changes nothing does not tell, the next one tells.
	plays(t, "ISO-2022-JP//IGNORE", "UTF-8",
		takes("\xFF\u3042\xC3", 9, 4, "\x1B$B$\"", 0, api.More),
		ends(2, "", 0, api.Full),
		ends(3, "\x1B(B", 0, api.Illegal),
		ends(3, "", 0, api.OK))
}

// Promise 25.2: states go on from call to call.

func TestStatesGoOn(t *testing.T) {
	plays(t, "UTF-16", "UTF-8",
		takes("A", 9, 1, "\xFE\xFF\x00A", 0, api.OK),
		takes("B", 9, 1, "\x00B", 0, api.OK),
		ends(9, "", 0, api.OK),
		takes("C", 9, 1, "\x00C", 0, api.OK))
	plays(t, "UTF-32", "UTF-8",
		takes("A", 9, 1, "\x00\x00\xFE\xFF\x00\x00\x00A", 0, api.OK),
		takes("B", 9, 1, "\x00\x00\x00B", 0, api.OK))
	plays(t, "UTF-8", "UTF-16",
		takes("\xFF\xFE", 9, 2, "", 0, api.OK),
		takes("A\x00", 9, 2, "A", 0, api.OK),
		takes("\xFF\xFE", 9, 2, "\uFEFF", 0, api.OK),
		ends(9, "", 0, api.OK),
		takes("\x00B", 9, 2, "B", 0, api.OK))
	plays(t, "UTF-8", "UTF-32",
		takes("\xFF\xFE\x00\x00", 9, 4, "", 0, api.OK),
		takes("A\x00\x00\x00", 9, 4, "A", 0, api.OK),
		ends(9, "", 0, api.OK),
		takes("\x00\x00\xFE\xFF\x00\x00\x00A", 9, 8, "A", 0, api.OK))
	plays(t, "UTF-8", "UTF-7",
		takes("+", 9, 1, "", 0, api.OK),
		takes("A", 9, 1, "", 0, api.OK),
		takes("O", 9, 1, "", 0, api.OK),
		takes("Q", 9, 1, "\u00E4", 0, api.OK),
		takes("-", 9, 1, "", 0, api.OK),
		takes("+2D3", 9, 4, "", 0, api.OK),
		takes("eAA-x", 9, 5, "\U0001F600x", 0, api.OK))
	plays(t, "UTF-7", "UTF-8",
		takes("+", 9, 1, "+-", 0, api.OK),
		takes("\u00E4", 9, 2, "+AO", 0, api.OK),
		takes("\u00E4", 9, 2, "QA5", 0, api.OK),
		takes("A", 9, 1, "A-A", 0, api.OK),
		takes("\u00E4", 9, 2, "+AO", 0, api.OK),
		takes("A", 9, 1, "Q-A", 0, api.OK))
	plays(t, "UTF-8", "HZ",
		takes("~{", 9, 2, "", 0, api.OK),
		takes("0!", 9, 2, "\u554A", 0, api.OK),
		takes("~}", 9, 2, "", 0, api.OK),
		takes("0!", 9, 2, "0!", 0, api.OK))
	plays(t, "HZ", "UTF-8",
		takes("\u554A", 9, 3, "~{0!", 0, api.OK),
		takes("\u554A", 9, 3, "0!", 0, api.OK),
		takes("~", 9, 1, "~}~~", 0, api.OK))
	plays(t, "UTF-8", "ISO-2022-JP",
		takes("\x1B$B", 9, 3, "", 0, api.OK),
		takes("$\"", 9, 2, "\u3042", 0, api.OK),
		takes("\x1B(J\\", 9, 4, "\u00A5", 0, api.OK),
		takes("\\", 9, 1, "\u00A5", 0, api.OK))
	plays(t, "ISO-2022-JP", "UTF-8",
		takes("\u3042", 9, 3, "\x1B$B$\"", 0, api.OK),
		takes("\u00A5", 9, 2, "\x1B(J\\", 0, api.OK),
		takes("A", 9, 1, "\x1B(BA", 0, api.OK))
	plays(t, "UTF-8", "ISO-2022-KR",
		takes("\x1B$)C", 9, 4, "", 0, api.OK),
		takes("\x0E", 9, 1, "", 0, api.OK),
		takes("0!", 9, 2, "\uAC00", 0, api.OK),
		takes("\x0F0!", 9, 3, "0!", 0, api.OK))
	plays(t, "ISO-2022-KR", "UTF-8",
		takes("A", 9, 1, "\x1B$)CA", 0, api.OK),
		takes("\uAC00", 9, 3, "\x0E0!", 0, api.OK),
		takes("\uAC00", 9, 3, "0!", 0, api.OK),
		takes("A", 9, 1, "\x0FA", 0, api.OK))
	plays(t, "UTF-8", "CP1258",
		takes("A", 9, 1, "", 0, api.OK),
		takes("\xCC", 9, 1, "\u00C0", 0, api.OK),
		takes("E", 9, 1, "", 0, api.OK),
		takes("B", 9, 1, "EB", 0, api.OK),
		takes("\xCC", 9, 1, "\u0300", 0, api.OK))
	plays(t, "CP1258", "UTF-8",
		takes("\u00C0", 9, 2, "\xC0", 0, api.OK),
		takes("\u1EA4", 9, 3, "\xC2\xEC", 0, api.OK))
}

// Promise 25.3: Reset.

func TestResetRefuses(t *testing.T) {
	p := newPair(t)
	h := p.must("ISO-2022-JP//IGNORE", "UTF-8")
	p.convert(h, []byte("\xFF\u3042\xC3"), 9)
	for _, none := range append(strangeNumbers, 2, 64) {
		for _, room := range []int{0, 9, enough, -1, math.MinInt} {
			if d := p.reset(none, room); !same(d, engine.Done{Err: api.ErrState}) {
				t.Errorf("Reset(%d, %d): %+v", none, room, d)
			}
		}
	}
	for _, room := range []int{-1, -2, -64, -1 << 32, math.MinInt} {
		if d := p.reset(h, room); !same(d, engine.Done{Err: api.ErrRange}) {
			t.Errorf("Reset(%d, %d): %+v", h, room, d)
		}
	}
	// Nothing was changed.
	if d := p.reset(h, 9); !same(d, engine.Done{Out: []byte("\x1B(B"), Err: api.Illegal}) {
		t.Errorf("Reset behind what was refused: %+v", d)
	}
}

func TestResetAtFirst(t *testing.T) {
	for _, kind := range names.Kinds() {
		for _, wishes := range []string{"", "//TRANSLIT//IGNORE"} {
			name := names.Name(kind)
			plays(t, name+wishes, "UTF-8", ends(0, "", 0, api.OK), ends(enough, "", 0, api.OK))
			plays(t, "UTF-8"+wishes, name, ends(0, "", 0, api.OK), ends(0, "", 0, api.OK))
		}
	}
}

// TestResetDrains has a letter of windows-1258 held.
func TestResetDrains(t *testing.T) {
	plays(t, "UTF-8", "CP1258",
		takes("xA", 9, 2, "x", 0, api.OK),
		ends(0, "", 0, api.Full),
		ends(1, "A", 0, api.OK),
		ends(0, "", 0, api.OK),
		takes("\xCC", 9, 1, "\u0300", 0, api.OK))
	plays(t, "UTF-8", "CP1258",
		takes("\xC2", 9, 1, "", 0, api.OK),
		ends(1, "", 0, api.Full),
		takes("\xEC", 9, 1, "\u1EA4", 0, api.OK))
	plays(t, "CP1258", "CP1258", takes("A", 9, 1, "", 0, api.OK), ends(9, "A", 0, api.OK))
	// By what stands in its place.
	plays(t, "ASCII//TRANSLIT", "CP1258",
		takes("\xC2", 9, 1, "", 0, api.OK),
		ends(0, "", 0, api.Full),
		ends(1, "A", 1, api.OK),
		ends(1, "", 0, api.OK))
	plays(t, "ASCII//TRANSLIT//IGNORE", "CP1258",
		takes("\xC2", 9, 1, "", 0, api.OK),
		ends(9, "A", 1, api.OK))
	// Without a place.
	plays(t, "ASCII", "CP1258",
		takes("\xC2", 9, 1, "", 0, api.OK),
		ends(0, "", 0, api.Illegal),
		ends(9, "", 0, api.Illegal),
		takes("", 0, 0, "", 0, api.OK),
		ends(9, "", 0, api.Illegal))
	plays(t, "HZ", "CP1258",
		takes("\xC2", 9, 1, "", 0, api.OK),
		ends(9, "", 0, api.Illegal),
		takes("!", 9, 0, "", 0, api.Illegal))
	// Passed over, which is told at once.
	plays(t, "ASCII//IGNORE", "CP1258",
		takes("\xC2", 9, 1, "", 0, api.OK),
		ends(0, "", 0, api.Illegal),
		ends(0, "", 0, api.OK),
		takes("!", 9, 1, "!", 0, api.OK))
	// Not told with what is full: the letter is passed over by the next one.
	plays(t, "ISO-2022-JP//IGNORE", "CP1258",
		takes("\xD7\xC2", 9, 2, "\x1B$B!_", 0, api.OK),
		ends(2, "", 0, api.Full),
		takes("", 0, 0, "", 0, api.OK),
		ends(3, "\x1B(B", 0, api.Illegal),
		ends(3, "", 0, api.OK))
	// Written from the state of writing, and then the end of the state behind it.
	plays(t, "UTF-7", "CP1258", takes("\xC2", 9, 1, "", 0, api.OK), ends(4, "", 0, api.Full), ends(5, "+AMI-", 0, api.OK))
	plays(t, "UTF-7", "CP1258", takes("\x80\xC2", 9, 2, "+IK", 0, api.OK), ends(9, "wAwg-", 0, api.OK), takes("!", 9, 1, "+AC", 0, api.OK))
	plays(t, "ISO-2022-JP", "CP1258", takes("\xD7A", 9, 2, "\x1B$B!_", 0, api.OK), ends(3, "", 0, api.Full), ends(4, "\x1B(BA", 0, api.OK), ends(0, "", 0, api.OK))
	plays(t, "UTF-16", "CP1258", takes("A", 9, 1, "", 0, api.OK), ends(3, "", 0, api.Full), ends(4, "\xFE\xFF\x00A", 0, api.OK), takes("!", 9, 1, "\x00!", 0, api.OK))
	plays(t, "ISO-2022-KR", "CP1258", takes("\xD7A", 9, 2, "\x1B$)C\x0E!?", 0, api.OK), ends(9, "\x0FA", 0, api.OK))
}

// TestResetLeadsBack has ends that put out something.
func TestResetLeadsBack(t *testing.T) {
	plays(t, "ISO-2022-JP", "UTF-8",
		takes("\u3042", 9, 3, "\x1B$B$\"", 0, api.OK),
		ends(0, "", 0, api.Full),
		ends(2, "", 0, api.Full),
		takes("\u3042", 9, 3, "$\"", 0, api.OK),
		ends(3, "\x1B(B", 0, api.OK),
		ends(3, "", 0, api.OK),
		takes("\u3042", 9, 3, "\x1B$B$\"", 0, api.OK))
	plays(t, "ISO-2022-KR", "UTF-8",
		takes("\uAC00", 9, 3, "\x1B$)C\x0E0!", 0, api.OK),
		ends(0, "", 0, api.Full),
		ends(1, "\x0F", 0, api.OK),
		ends(0, "", 0, api.OK),
		takes("\uAC00", 9, 3, "\x0E0!", 0, api.OK))
	plays(t, "HZ", "UTF-8",
		takes("\u554A", 9, 3, "~{0!", 0, api.OK),
		ends(1, "", 0, api.Full),
		takes("\u554A", 9, 3, "0!", 0, api.OK),
		ends(2, "~}", 0, api.OK),
		takes("\u554A", 9, 3, "~{0!", 0, api.OK))
	plays(t, "UTF-7", "UTF-8",
		takes("\u00E4", 9, 2, "+AO", 0, api.OK),
		ends(1, "", 0, api.Full),
		ends(2, "Q-", 0, api.OK),
		ends(0, "", 0, api.OK),
		takes("\u00E4", 9, 2, "+AO", 0, api.OK))
	plays(t, "UTF-7", "UTF-8", takes("Hi + \u00E4", 99, 7, "Hi +- +AO", 0, api.OK), ends(99, "Q-", 0, api.OK))
}

// TestResetReading has the state of reading zero behind it.
func TestResetReading(t *testing.T) {
	plays(t, "UTF-8", "UTF-16", takes("\xFF\xFEA\x00", 9, 4, "A", 0, api.OK), ends(0, "", 0, api.OK), takes("\xFE\xFF\x00A", 9, 4, "A", 0, api.OK))
	plays(t, "UTF-8", "UTF-7", takes("+A", 9, 2, "", 0, api.OK), ends(0, "", 0, api.OK), takes("OQ", 9, 2, "OQ", 0, api.OK))
	plays(t, "UTF-8", "HZ", takes("~{", 9, 2, "", 0, api.OK), ends(0, "", 0, api.OK), takes("0!", 9, 2, "0!", 0, api.OK))
	plays(t, "UTF-8", "ISO-2022-JP", takes("\x1B$B", 9, 3, "", 0, api.OK), ends(0, "", 0, api.OK), takes("$\"", 9, 2, "$\"", 0, api.OK))
	plays(t, "UTF-8", "ISO-2022-KR", takes("\x1B$)C\x0E", 9, 5, "", 0, api.OK), ends(0, "", 0, api.OK), takes("\x0E", 9, 0, "", 0, api.Illegal), takes("0!", 9, 2, "0!", 0, api.OK))
	// What is full does not change it.
	plays(t, "HZ", "HZ", takes("~{0!", 9, 4, "~{0!", 0, api.OK), ends(1, "", 0, api.Full), takes("0!", 9, 2, "0!", 0, api.OK), ends(2, "~}", 0, api.OK), takes("0!", 9, 2, "0!", 0, api.OK))
}

// TestResetTells has something passed over and not told yet.
func TestResetTells(t *testing.T) {
	plays(t, "ASCII//IGNORE", "UTF-8", takes("\xFFA", 0, 1, "", 0, api.Full), ends(0, "", 0, api.Illegal), ends(0, "", 0, api.OK), takes("A", 9, 1, "A", 0, api.OK))
	plays(t, "ASCII//IGNORE", "UTF-8", takes("\xFFA", 9, 2, "A", 0, api.Illegal), ends(0, "", 0, api.OK))
	plays(t, "UTF-7//IGNORE", "UTF-8", takes("\xFF\u00E4\u00E4", 3, 3, "+AO", 0, api.Full), ends(1, "", 0, api.Full), ends(2, "Q-", 0, api.Illegal), ends(2, "", 0, api.OK))
	plays(t, "KOI8-R//TRANSLIT//IGNORE", "CP1258", takes("\x81\xC2\x80", 0, 2, "", 0, api.Full), ends(1, "A", 1, api.Illegal), ends(1, "", 0, api.OK))
}

// TestResetAsNew has a conversion go on as a new one, for all kinds that write no mark and no header.
func TestResetAsNew(t *testing.T) {
	eachKind(t, func(t *testing.T, kind int) {
		r := rand.New(rand.NewPCG(25, uint64(kind)+100))
		for range 60 {
			to := names.Kinds()[r.IntN(56)]
			a, b := names.Name(to)+someWishes(r), names.Name(kind)
			p, q := newPair(t), newPair(t)
			h, g := p.must(a, b), q.must(a, b)
			p.convert(h, someText(r, kind, 9), enough)
			if p.reset(h, enough).Err == api.Illegal {
				// Told, or not changed: the next one shows which.
				if p.reset(h, enough).Err == api.Illegal {
					continue
				}
			}
			if to == api.UTF16 || to == api.UTF32 || to == api.ISO2022KR {
				continue
			}
			text := someText(r, kind, 9)
			if d, want := p.convert(h, text, enough), q.convert(g, text, enough); !same(d, want) {
				t.Fatalf("from %s to %s, %X behind a reset: %+v, as new: %+v", b, a, text, d, want)
			}
			if d, want := p.reset(h, enough), q.reset(g, enough); !same(d, want) {
				t.Fatalf("from %s to %s, a second reset: %+v, as new: %+v", b, a, d, want)
			}
		}
	})
}

// Promise 25.4: All.

func TestAllRefuses(t *testing.T) {
	long := make([]byte, 1<<20+1)
	for _, in := range [][]byte{nil, []byte("A"), long} {
		for _, a := range bad {
			for _, c := range [][2]string{{a.name, "UTF-8"}, {"UTF-8", a.name}, {a.name, "x"}, {a.name, strings.Repeat("x", 65)}, {a.name, "UTF-8//x"}} {
				if b, odd, e := engine.All(c[0], c[1], in); len(b) != 0 || odd != 0 || e != a.err {
					t.Errorf("All(%.80q, %.80q, %d bytes): %X, %d, %d, want error %d", c[0], c[1], len(in), b, odd, e, a.err)
				}
			}
		}
	}
	for _, to := range []string{"UTF-8", "ISO-2022-KR", "ASCII//TRANSLIT//IGNORE"} {
		for _, in := range [][]byte{long, append(long, 0), append(long, long...)} {
			if b, odd, e := engine.All(to, "ISO-8859-1", in); len(b) != 0 || odd != 0 || e != api.ErrLong {
				t.Errorf("All(%s) of %d bytes: %d bytes, %d, %d", to, len(in), len(b), odd, e)
			}
		}
	}
}

func TestAllByEye(t *testing.T) {
	for _, c := range []struct {
		to, from, in, out string
		odd               int
		err               api.Errno
	}{
		{"UTF-8", "UTF-8", "", "", 0, api.OK},
		{"UTF-16", "UTF-8", "", "", 0, api.OK},
		{"ISO-8859-1", "UTF-8", "a\u00E4", "a\xE4", 0, api.OK},
		{"ISO-8859-1//TRANSLIT", "UTF-8", "a\u00E4\u20AC", "a\xE4EUR", 1, api.OK},
		{"ISO-8859-1", "UTF-8", "a\u00E4\u20AC", "a\xE4", 0, api.Illegal},
		{"ISO-8859-1//IGNORE", "UTF-8", "a\u00E4\u20AC", "a\xE4", 0, api.Illegal},
		{"ISO-8859-1//IGNORE", "UTF-8", "a\u20AC\xFFb", "ab", 0, api.Illegal},
		{"ISO-8859-1", "UTF-8", "a\xFFb", "a", 0, api.Illegal},
		{"ISO-8859-1", "UTF-8", "a\xC3", "a", 0, api.More},
		{"ISO-8859-1//IGNORE", "UTF-8", "\xFFa\xC3", "a", 0, api.More},
		{"ISO-8859-1//TRANSLIT", "UTF-8", "\u20ACa\xC3", "EURa", 1, api.More},
		{"ISO-8859-1//TRANSLIT", "UTF-8", "\u20ACa\u4E00", "EURa", 1, api.Illegal},
		{"ISO-2022-JP", "UTF-8", "\u3042", "\x1B$B$\"\x1B(B", 0, api.OK},
		{"ISO-2022-JP", "UTF-8", "\u3042\xE3", "\x1B$B$\"", 0, api.More},
		{"ISO-2022-JP", "UTF-8", "\u3042\xFF", "\x1B$B$\"", 0, api.Illegal},
		{"ISO-2022-JP//IGNORE", "UTF-8", "\u3042\xFF", "\x1B$B$\"\x1B(B", 0, api.Illegal},
		{"ISO-2022-JP//IGNORE", "UTF-8", "\uAC00\u3042", "\x1B$B$\"\x1B(B", 0, api.Illegal},
		{"ISO-2022-KR", "UTF-8", "\uAC00A", "\x1B$)C\x0E0!\x0FA", 0, api.OK},
		{"ISO-2022-KR", "UTF-8", "\uAC00", "\x1B$)C\x0E0!\x0F", 0, api.OK},
		{"HZ", "UTF-8", "A\u554A", "A~{0!~}", 0, api.OK},
		{"UTF-7", "UTF-8", "Hi + \u00E4", "Hi +- +AOQ-", 0, api.OK},
		{"UTF-7", "UTF-8", "\U0001F600", "+2D3eAA-", 0, api.OK},
		{"JOHAB", "UTF-8", "\uD55C", "\xD0\x65", 0, api.OK},
		{"ASCII", "UTF-16", "\xFF\xFEA\x00", "A", 0, api.OK},
		{"UTF-8", "CP1258", "A\xCC", "\u00C0", 0, api.OK},
		{"UTF-8", "CP1258", "A", "A", 0, api.OK},
		{"UTF-8", "CP1258", "ABA", "ABA", 0, api.OK},
		{"ASCII", "CP1258", "A\xC2", "A", 0, api.Illegal},
		{"ASCII", "CP1258", "A\x80", "", 0, api.Illegal},
		{"ASCII//TRANSLIT", "CP1258", "\x80\xC2", "EURA", 2, api.OK},
		{"ASCII//IGNORE", "CP1258", "x\xC2", "x", 0, api.Illegal},
		{"ASCII//IGNORE", "CP1258", "\x81x\xC2", "x", 0, api.Illegal},
		{"ASCII//TRANSLIT//IGNORE", "CP1258", "\xA4\xC2", "A", 1, api.Illegal},
		{"UTF-7//TRANSLIT", "CP1258", "\xC2", "+AMI-", 0, api.OK},
	} {
		b, odd, e := newPair(t).all(c.to, c.from, []byte(c.in))
		if string(b) != c.out || odd != c.odd || e != c.err {
			t.Errorf("All(%s, %s, %X): %X, %d, %d, want %X, %d, %d", c.to, c.from, c.in, b, odd, e, c.out, c.odd, c.err)
		}
	}
}

func TestAllOfAllSorts(t *testing.T) {
	eachKind(t, func(t *testing.T, from int) {
		r := rand.New(rand.NewPCG(25, uint64(from)+200))
		p := newPair(t)
		for range 200 {
			to := names.Kinds()[r.IntN(56)]
			p.all(names.Name(to)+someWishes(r), names.Name(from)+someWishes(r), someText(r, from, 20))
		}
	})
}

// TestAllIsApart has All leave tables as they are, and no two calls touch one another.
func TestAllIsApart(t *testing.T) {
	p := newPair(t)
	h := p.must("ISO-2022-JP", "UTF-8")
	p.convert(h, []byte("\u3042"), 9)
	for range 70 {
		if b, _, e := p.all("UTF-16", "CP1258", []byte("A")); string(b) != "\xFE\xFF\x00A" || e != api.OK {
			t.Fatalf("All: %X, %d", b, e)
		}
	}
	p.live()
	if d := p.reset(h, 9); string(d.Out) != "\x1B(B" {
		t.Errorf("Reset: %+v", d)
	}
}

// Promise 25.5: cuts do not matter.

// sum is what several calls have done together.
type sum struct {
	took, odd int
	out       []byte
	illegal   bool
}

func (s *sum) add(d engine.Done) {
	s.took += d.Took
	s.odd += d.Odd
	s.out = append(s.out, d.Out...)
	s.illegal = s.illegal || d.Err == api.Illegal
}

func (s sum) same(o sum) bool {
	return s.took == o.took && s.odd == o.odd && bytes.Equal(s.out, o.out) && s.illegal == o.illegal
}

// inPieces hands a text in in pieces, each under some room, till it is taken or something ends it, and resets.
func inPieces(p *pair, h int, text []byte, r *rand.Rand, piece, room int) sum {
	p.Helper()
	var s sum
	var pending []byte
	for calls := 0; ; calls++ {
		n := min(r.IntN(piece+1), len(text))
		pending = append(pending, text[:n]...)
		text = text[n:]
		d := p.convert(h, pending, r.IntN(room+1)+calls/1000)
		s.add(d)
		pending = pending[d.Took:]
		if d.Err == api.Illegal && len(pending) > 0 {
			return s
		}
		if len(text) == 0 && (d.Err == api.More || len(pending) == 0) {
			break
		}
	}
	if len(pending) > 0 {
		// What was passed over is told by a call that takes all.
		s.add(p.convert(h, nil, 0))
		return s
	}
	last := p.reset(h, 0)
	for room := 1; last.Err == api.Full; room++ {
		last = p.reset(h, room)
	}
	s.add(last)
	return s
}

func TestPieces(t *testing.T) {
	eachKind(t, func(t *testing.T, from int) {
		r := rand.New(rand.NewPCG(25, uint64(from)+300))
		for range 50 {
			to := names.Name(names.Kinds()[r.IntN(56)]) + someWishes(r)
			text := someText(r, from, 24)
			p := newPair(t)
			whole := p.must(to, names.Name(from))
			want := inPieces(p, whole, text, rand.New(whollyTaken{}), len(text), enough-1)
			b, odd, e := p.all(to, names.Name(from), text)
			if !bytes.Equal(b, want.out) || odd != want.odd || (e == api.Illegal) != want.illegal && e != api.More {
				t.Fatalf("from %d to %s, %X: %+v, but All %X, %d, %d", from, to, text, want, b, odd, e)
			}
			for _, sizes := range [][2]int{{1, 3}, {1, 64}, {3, 9}, {9, 2}, {100, 100}} {
				h := p.must(to, names.Name(from))
				if got := inPieces(p, h, text, r, sizes[0], sizes[1]); !got.same(want) {
					t.Fatalf("from %d to %s, %X in pieces: %+v, want %+v", from, to, text, got, want)
				}
			}
		}
	})
}

// whollyTaken is a source by which every choice is the greatest one, so that a text is one piece with room enough.
type whollyTaken struct{}

func (whollyTaken) Uint64() uint64 { return math.MaxUint64 }

// TestPiecesOfOne has every byte handed in alone, under every small room.
func TestPiecesOfOne(t *testing.T) {
	eachKind(t, func(t *testing.T, kind int) {
		text := places(kind)
		in, _ := codec.Encode(kind, text)
		for _, other := range []int{api.UTF8, api.UTF7, api.UTF16, api.ISO2022JP, api.CP1258, kind} {
			to := names.Name(other) + "//TRANSLIT//IGNORE"
			want, odd, _ := newPair(t).all(to, names.Name(kind), in)
			p := newPair(t)
			h := p.must(to, names.Name(kind))
			var s sum
			var pending []byte
			for _, c := range in {
				pending = append(pending, c)
				for room := 0; ; room++ {
					d := p.convert(h, pending, room)
					s.add(d)
					pending = pending[d.Took:]
					if d.Err != api.Full {
						break
					}
				}
			}
			s.add(p.reset(h, 64))
			if len(pending) != 0 || !bytes.Equal(s.out, want) || s.odd != odd {
				t.Fatalf("from %d to %s: %+v, want %X, %d", kind, to, s, want, odd)
			}
		}
	})
}

// Promise 25.5: room for 64 bytes is enough for some step.

func TestRoomForAStep(t *testing.T) {
	eachKind(t, func(t *testing.T, from int) {
		r := rand.New(rand.NewPCG(25, uint64(from)+400))
		for range 100 {
			p := newPair(t)
			h := p.must(names.Name(names.Kinds()[r.IntN(56)])+someWishes(r), names.Name(from))
			for text := someText(r, from, 60); len(text) > 0; {
				d := p.convert(h, text, 64)
				if d.Err == api.Full && d.Took == 0 {
					t.Fatalf("%X: Full with nothing taken", text)
				}
				if d.Err != api.Full {
					break
				}
				text = text[d.Took:]
			}
		}
	})
}

// Promise 25.5: by way of UTF-32BE.

func TestByWayOfUTF32(t *testing.T) {
	eachKind(t, func(t *testing.T, from int) {
		r := rand.New(rand.NewPCG(25, uint64(from)+500))
		straight := 0
		for range 100 {
			to := names.Name(names.Kinds()[r.IntN(56)]) + someWishes(r)
			text := someText(r, from, 20)
			p := newPair(t)
			want, odd, e := p.all(to, names.Name(from), text)
			between, _, f := p.all("UTF-32BE", names.Name(from), text)
			got, more, g := p.all(to, "UTF-32BE", between)
			if e != api.OK || f != api.OK || g != api.OK {
				continue
			}
			straight++
			if !bytes.Equal(got, want) || more != odd {
				t.Fatalf("from %d to %s, %X: %X, %d, straight %X, %d", from, to, text, got, more, want, odd)
			}
		}
		if straight < 10 {
			t.Errorf("only %d texts went straight", straight)
		}
	})
}

// W2 and W5: rows of calls of all sorts.

func TestRowsOfCalls(t *testing.T) {
	for seed := range uint64(64) {
		t.Run(fmt.Sprint(seed), func(t *testing.T) {
			t.Parallel()
			r := rand.New(rand.NewPCG(25, 1000+seed))
			p := newPair(t)
			kinds := names.Kinds()
			from := map[int]int{}
			for range 600 {
				h := r.IntN(8)
				switch r.IntN(12) {
				case 0, 1:
					k := kinds[r.IntN(56)]
					to := names.Name(kinds[r.IntN(56)]) + someWishes(r)
					if g, e := p.open(to, names.Name(k)+someWishes(r)); e == api.OK {
						from[g] = k
					}
				case 2:
					p.open(bad[r.IntN(len(bad))].name, "UTF-8")
				case 3:
					p.close(h)
				case 4:
					p.live()
				case 5:
					p.reset(h, r.IntN(8)-1)
				default:
					k := from[h]
					if k == 0 {
						k = api.UTF8
					}
					p.convert(h, someText(r, k, 12), r.IntN(30)-1)
				}
			}
		})
	}
}

// R4: what is handed in is not changed and not kept, and what is handed out is new.

func TestArgumentsStay(t *testing.T) {
	r := rand.New(rand.NewPCG(25, 3))
	for range 2000 {
		kinds := names.Kinds()
		from := kinds[r.IntN(56)]
		to := names.Name(kinds[r.IntN(56)]) + someWishes(r)
		text := someText(r, from, 9)
		whole := append(bytes.Clone(text), "spare room"...)
		before := bytes.Clone(whole)
		in := whole[:len(text)]
		p := newPair(t)
		h := p.must(to, names.Name(from))
		p.convert(h, in, r.IntN(20))
		p.all(to, names.Name(from), in)
		if !bytes.Equal(whole, before) {
			t.Fatalf("from %d to %s: %X was changed to %X", from, to, before, whole)
		}
		// Changed by the caller, it changes nothing.
		spoil(whole, 0xFF)
		p.convert(h, someText(r, from, 9), enough)
		p.reset(h, enough)
	}
}

func TestAnswersAreNew(t *testing.T) {
	r := rand.New(rand.NewPCG(25, 4))
	for range 2000 {
		kinds := names.Kinds()
		from := kinds[r.IntN(56)]
		to := names.Name(kinds[r.IntN(56)]) + someWishes(r)
		text := someText(r, from, 9)
		before := bytes.Clone(text)
		p := newPair(t)
		h := p.must(to, names.Name(from))
		a := p.convert(h, text, enough)
		b := p.reset(h, enough)
		kept := bytes.Clone(b.Out)
		spoil(a.Out, 0xFF)
		c, _, _ := p.all(to, names.Name(from), text)
		again := bytes.Clone(c)
		spoil(b.Out, 0xFE)
		d, _, _ := p.all(to, names.Name(from), text)
		spoil(d, 0xFD)
		if !bytes.Equal(text, before) || !bytes.Equal(c, again) {
			t.Fatalf("from %d to %s: %X, %X and %X share memory", from, to, text, kept, c)
		}
		p.convert(h, text, enough)
		p.reset(h, enough)
	}
}

// TestSameToSame has bytes that are put out as they were taken, where an answer might be the argument itself.
func TestSameToSame(t *testing.T) {
	p := newPair(t)
	h := p.must("ASCII", "ASCII")
	in := []byte("abc")
	d := p.convert(h, in, 9)
	b, _, _ := p.all("ASCII", "ASCII", in)
	spoil(d.Out, 'x')
	if string(in) != "abc" || string(b) != "abc" {
		t.Errorf("%s and %s behind a change of the answer", in, b)
	}
	spoil(b, 'y')
	if string(in) != "abc" {
		t.Errorf("%s behind a change of the answer", in)
	}
}

// Conversions of tables of their own may go on at once.

func TestTablesAtOnce(t *testing.T) {
	for i := range 16 {
		t.Run(fmt.Sprint(i), func(t *testing.T) {
			t.Parallel()
			p := newPair(t)
			h := p.must("ISO-2022-JP//TRANSLIT", "CP1258")
			for range 200 {
				p.convert(h, []byte("A\xCC\xD7\xC2\x80"), 99)
				p.reset(h, 99)
			}
		})
	}
}

// The chapter's examples, and the document's.

func TestExamples(t *testing.T) {
	x := engine.New()
	if h, e := x.Open("ISO-8859-1", "UTF-8"); h != 1 || e != api.OK {
		t.Errorf("Open: %d, %d", h, e)
	}
	if h, e := x.Open("x", "UTF-8"); h != 0 || e != api.ErrName {
		t.Errorf("Open of x: %d, %d", h, e)
	}
	if e := x.Close(9); e != api.ErrState {
		t.Errorf("Close(9): %d", e)
	}
	plays(t, "ISO-8859-1", "UTF-8",
		takes("A\xC3\xA4\xC3", 9, 3, "A\xE4", 0, api.More),
		takes("A\xC3\xA4", 1, 1, "A", 0, api.Full),
		takes("\xE2\x82\xAC", 9, 0, "", 0, api.Illegal))
	plays(t, "ISO-8859-1//TRANSLIT", "UTF-8", takes("\xE2\x82\xAC", 9, 3, "EUR", 1, api.OK))
	plays(t, "ISO-8859-1//IGNORE", "UTF-8", takes("\xE2\x82\xAC", 9, 3, "", 0, api.Illegal))
	plays(t, "ISO-8859-1//TRANSLIT", "UTF-8", takes("a\u00E4\u20AC", 9, 6, "a\xE4EUR", 1, api.OK))
	plays(t, "ISO-8859-1", "UTF-8", takes("a\u00E4\u20AC", 9, 3, "a\xE4", 0, api.Illegal))
	plays(t, "ISO-8859-1//IGNORE", "UTF-8", takes("a\u00E4\u20AC", 9, 6, "a\xE4", 0, api.Illegal))
	plays(t, "ISO-2022-JP", "UTF-8", takes("\u3042", 9, 3, "\x1B$B$\"", 0, api.OK), ends(9, "\x1B(B", 0, api.OK))
	plays(t, "UTF-8", "UTF-8", takes("\xC3", 9, 0, "", 0, api.More), takes("\xC3\xA4", 9, 2, "\u00E4", 0, api.OK))
	plays(t, "ASCII", "UTF-16", takes("\xFF\xFEA\x00", 9, 4, "A", 0, api.OK))
	plays(t, "UTF-8", "WINDOWS-1258", takes("A\xCC", 9, 2, "\u00C0", 0, api.OK))
	plays(t, "JOHAB", "UTF-8", takes("\uD55C", 9, 3, "\xD0\x65", 0, api.OK))
	plays(t, "UTF-7", "UTF-8", takes("Hi + \u00E4", 99, 7, "Hi +- +AO", 0, api.OK), ends(9, "Q-", 0, api.OK))
	plays(t, "ASCII", "ASCII",
		takes("twenty bytes of text", 10, 10, "twenty byt", 0, api.Full),
		takes("es of text", 10, 10, "es of text", 0, api.OK))
	plays(t, "KOI8-R", "UTF-8", takes("\xD0\xAF", 9, 2, "\xF1", 0, api.OK))
	if b, odd, e := engine.All("ISO-2022-JP", "UTF-8", []byte("\u3042")); string(b) != "\x1B$B$\"\x1B(B" || odd != 0 || e != api.OK {
		t.Errorf("All: %X, %d, %d", b, odd, e)
	}
}
