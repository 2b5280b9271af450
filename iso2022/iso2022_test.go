package iso2022_test

import (
	"bytes"
	"fmt"
	"maps"
	"math"
	"math/rand/v2"
	"slices"
	"strings"
	"testing"

	"dragoman/api"
	"dragoman/iso2022"
	"dragoman/jis"
	"dragoman/ksc"
)

// The kinds, by the numbers that chapter 23 lists.
const (
	jp = 83
	kr = 88
)

var kinds = []int{jp, kr}

// How many cells stand for something, row by row as one counts them in chapters 14 and 16.
const (
	placesJP = 94 + 53 + 62 + 83 + 86 + 48 + 66 + 32 + 94
	placesKR = 94 + 71 + 94 + 93 + 68 + 68 + 79 + 91 + 94 + 83 + 86 + 66 + 94 + 94
)

// in is the state of a mode.
func in(mode int) api.State { return api.State{Mode: mode} }

// unit is what a scalar is written as, and the mode that it is read in.
type unit struct {
	mode int
	text string
}

// model is a kind by the document, apart from the program: what whole units come to in each mode, sequences among them, what scalars are written as, and what leads from mode to mode.
type model struct {
	kind    int
	units   [3]map[string]api.Got
	written map[rune]unit
	ways    [3][3]string
	ends    [3]unit
}

func newModel(t *testing.T, kind int) model {
	t.Helper()
	m := model{kind: kind, units: [3]map[string]api.Got{{}, {}, {}}, written: map[rune]unit{}}
	if kind == jp {
		m.fillJP()
	} else {
		m.fillKR()
	}
	sizes := fmt.Sprint(len(m.units[0]), len(m.units[1]), len(m.units[2]), len(m.written))
	want := fmt.Sprint(127+4, 127+4, 33+placesJP+4, 127+2+placesJP)
	if kind == kr {
		want = fmt.Sprint(125+1, 125+3, 31+placesKR+3, 125+placesKR)
	}
	if sizes != want {
		t.Fatalf("kind %d: units of each mode, and scalars: %s, want %s", kind, sizes, want)
	}
	return m
}

func (m *model) fillJP() {
	for mode := range 3 {
		m.units[mode]["\x1B\x28\x42"] = api.Got{N: 3}
		m.units[mode]["\x1B\x28\x4A"] = api.Got{N: 3, S: in(1)}
		m.units[mode]["\x1B\x24\x40"] = api.Got{N: 3, S: in(2)}
		m.units[mode]["\x1B\x24\x42"] = api.Got{N: 3, S: in(2)}
	}
	for n := range rune(0x80) {
		if n == 0x1B {
			continue
		}
		m.addAlone(n, 0, n)
		half := n
		if n == 0x5C {
			half = 0xA5
		}
		if n == 0x7E {
			half = 0x203E
		}
		m.addAlone(n, 1, half)
		if n <= 0x20 || n == 0x7F {
			m.addAlone(n, 2, n)
		}
	}
	m.addRows(jis.Row)
	m.ways = [3][3]string{{"", "\x1B\x28\x4A", "\x1B\x24\x42"}, {"\x1B\x28\x42", "", "\x1B\x24\x42"}, {"\x1B\x28\x42", "\x1B\x28\x4A", ""}}
	m.ends = [3]unit{{0, ""}, {0, "\x1B\x28\x42"}, {0, "\x1B\x28\x42"}}
}

func (m *model) fillKR() {
	for mode := range 3 {
		m.units[mode]["\x1B\x24\x29\x43"] = api.Got{N: 4, S: in(max(mode, 1))}
	}
	for mode := 1; mode <= 2; mode++ {
		m.units[mode]["\x0E"] = api.Got{N: 1, S: in(2)}
		m.units[mode]["\x0F"] = api.Got{N: 1, S: in(1)}
	}
	for n := range rune(0x80) {
		if n == 0x0E || n == 0x0F || n == 0x1B {
			continue
		}
		m.addAlone(n, 1, n)
		m.units[0][string(n)] = m.units[1][string(n)]
		if n <= 0x20 || n == 0x7F {
			m.addAlone(n, 2, n)
		}
	}
	m.addRows(ksc.Row)
	m.ways = [3][3]string{{"none", "\x1B\x24\x29\x43", "\x1B\x24\x29\x43\x0E"}, {"none", "", "\x0E"}, {"none", "\x0F", ""}}
	m.ends = [3]unit{{0, ""}, {1, ""}, {1, "\x0F"}}
}

// addAlone adds a byte that stands for a scalar in a mode; the first mode of a scalar is the one in which it is written.
func (m *model) addAlone(b rune, mode int, u rune) {
	m.units[mode][string(b)] = api.Got{N: 1, K: 1, A: u, S: in(mode)}
	if _, ok := m.written[u]; !ok {
		m.written[u] = unit{mode, string(b)}
	}
}

// addRows adds the rows; they are held against the document where they stand.
func (m *model) addRows(rowOf func(row int) []rune) {
	for row := 1; row <= 94; row++ {
		for i, u := range rowOf(row) {
			if u == 0xFFFD {
				continue
			}
			text := string([]byte{byte(0x20 + row), byte(0x21 + i)})
			m.units[2][text] = api.Got{N: 2, K: 1, A: u, S: in(2)}
			if _, ok := m.written[u]; !ok {
				m.written[u] = unit{2, text}
			}
		}
	}
}

// isHalfOfPair tells whether a byte may say a row or a cell.
func isHalfOfPair(b byte) bool { return b > 0x20 && b < 0x7F }

// wantGet is what Get answers by the document, of a mode that is right.
func (m model) wantGet(mode int, b []byte) api.Got {
	for n := 1; n <= 4 && n <= len(b); n++ {
		if g, ok := m.units[mode][string(b[:n])]; ok {
			return g
		}
	}
	ofTwo := mode == 2 && len(b) > 0 && isHalfOfPair(b[0])
	switch {
	case len(b) == 0, len(b) == 1 && ofTwo, m.begun(b):
		return api.Got{Err: api.More}
	case ofTwo && isHalfOfPair(b[1]):
		return api.Got{Err: api.Illegal, N: 2, S: in(mode)}
	}
	return api.Got{Err: api.Illegal, N: 1, S: in(mode)}
}

// begun tells whether bytes are the beginning of a sequence, and not a whole one.
func (m model) begun(b []byte) bool {
	if m.kind == kr {
		return slices.Contains([]string{"\x1B", "\x1B$", "\x1B$)"}, string(b))
	}
	return slices.Contains([]string{"\x1B", "\x1B$", "\x1B("}, string(b))
}

// wantSet is what Set answers by the document, of a mode that is right.
func (m model) wantSet(mode int, u rune) api.Put {
	w, ok := m.written[u]
	if !ok {
		return api.Put{Err: api.None}
	}
	return api.Put{Bytes: m.ways[mode][w.mode] + w.text, S: in(w.mode)}
}

// scalars are all that have a place, rising; those of one mode, if it is not below 0.
func (m model) scalars(mode int) []rune {
	var l []rune
	for _, u := range slices.Sorted(maps.Keys(m.written)) {
		if mode < 0 || m.written[u].mode == mode {
			l = append(l, u)
		}
	}
	return l
}

func checkGet(t *testing.T, kind int, s api.State, b []byte, want api.Got) {
	if got := iso2022.Get(kind, s, b); got != want {
		t.Helper()
		t.Fatalf("Get(%d, %+v, % .40X) = %+v, want %+v", kind, s, b, got, want)
	}
}

// told is what was put out, in words.
func told(p api.Put) string { return fmt.Sprintf("{%d, %q, %+v}", int(p.Err), p.Bytes, p.S) }

func checkSet(t *testing.T, kind int, s api.State, u rune, want api.Put) {
	if got := iso2022.Set(kind, s, u); got != want {
		t.Helper()
		t.Fatalf("Set(%d, %+v, %X) = %s, want %s", kind, s, u, told(got), told(want))
	}
}

func checkEnd(t *testing.T, kind int, s api.State, want string, wantState api.State, wantErr api.Errno) {
	if got, behind, err := iso2022.End(kind, s); got != want || behind != wantState || err != wantErr {
		t.Helper()
		t.Fatalf("End(%d, %+v) = %q, %+v, %d, want %q, %+v, %d", kind, s, got, behind, int(err), want, wantState, int(wantErr))
	}
}

// writeAll is what Set and End write for scalars, from the zero State on, and the state behind it.
func writeAll(t *testing.T, kind int, l []rune) (string, api.State) {
	t.Helper()
	var s api.State
	var out strings.Builder
	for i, u := range l {
		p := iso2022.Set(kind, s, u)
		if p.Err != api.OK {
			t.Fatalf("the scalar at %d of %X: Set(%d, %+v, %X) = %s", i, l, kind, s, u, told(p))
		}
		out.WriteString(p.Bytes)
		s = p.S
	}
	last, behind, err := iso2022.End(kind, s)
	if err != api.OK {
		t.Fatalf("%X: End(%d, %+v) = %q, %d", l, kind, s, last, int(err))
	}
	return out.String() + last, behind
}

// readFrom is what Get reads from a state on, up to the first error; and the state and the bytes that are left then.
func readFrom(kind int, s api.State, text string) ([]rune, api.State, string, api.Errno) {
	var l []rune
	for text != "" {
		g := iso2022.Get(kind, s, []byte(text))
		if g.Err != api.OK {
			return l, s, text, g.Err
		}
		if g.K == 1 {
			l = append(l, g.A)
		}
		s, text = g.S, text[g.N:]
	}
	return l, s, "", api.OK
}

// checkThereAndBack is promise 21.5 of some scalars; it tells what was written.
func checkThereAndBack(t *testing.T, kind int, l []rune) string {
	t.Helper()
	text, written := writeAll(t, kind, l)
	for i := range len(text) {
		if text[i] >= 0x80 {
			t.Fatalf("kind %d: %X are written as %q: more than seven bits at %d", kind, l, text, i)
		}
	}
	got, s, _, err := readFrom(kind, api.State{}, text)
	if !slices.Equal(got, l) || err != api.OK {
		t.Fatalf("kind %d: %X are written as %q, and read as %X, %+v, %d", kind, l, text, got, s, int(err))
	}
	want := api.State{}
	if kind == kr && len(l) > 0 {
		want = in(1)
	}
	if s != want || written != want {
		t.Fatalf("kind %d: %X are written as %q: reading comes to %+v, writing to %+v, want %+v", kind, l, text, s, written, want)
	}
	return text
}

// checkCuts: what is written for some scalars, cut anywhere, is read up to the cut; with the rest behind it, it is read to the end.
func checkCuts(t *testing.T, kind int, l []rune) {
	t.Helper()
	text, _ := writeAll(t, kind, l)
	_, last, _, _ := readFrom(kind, api.State{}, text)
	for cut := range len(text) + 1 {
		got, s, left, err := readFrom(kind, api.State{}, text[:cut])
		if err != api.OK && err != api.More || (err == api.OK) != (left == "") || len(left) > 3 {
			t.Fatalf("kind %d: %q up to %d: %d, %q left", kind, text, cut, int(err), left)
		}
		rest, behind, _, err := readFrom(kind, s, left+text[cut:])
		if !slices.Equal(append(got, rest...), l) || behind != last || err != api.OK {
			t.Fatalf("kind %d: %q, cut at %d: %X, %+v, %d, want %X, %+v", kind, text, cut, got, behind, int(err), l, last)
		}
	}
}

// checkPieces: what is written for some scalars is read as these, in whatever pieces it comes.
func checkPieces(t *testing.T, kind int, l []rune, r *rand.Rand) {
	t.Helper()
	text, last := writeAll(t, kind, l)
	var s api.State
	var all, got []rune
	var left string
	err := api.OK
	for rest := text; rest != ""; {
		n := min(1+r.IntN(7), len(rest))
		got, s, left, err = readFrom(kind, s, left+rest[:n])
		if err != api.OK && err != api.More || len(left) > 3 {
			t.Fatalf("kind %d: %q, %d bytes ahead of its end: %d, %q left", kind, text, len(rest)-n, int(err), left)
		}
		all, rest = append(all, got...), rest[n:]
	}
	if !slices.Equal(all, l) || s != last || err != api.OK {
		t.Fatalf("kind %d: %q in pieces: %X, %+v, %d, want %X, %+v", kind, text, all, s, int(err), l, last)
	}
}

// tails are what may follow: nothing, bytes of every sort, whole units and beginnings of them.
var tails = []string{"", "\x00", "\n", "\x0E", "\x0F", "\x1B", " ", "!", "0!", "B", "@C", "J", ")C", "(B", "$@", "\x7F", "\x80", "\x1B(B", "\x1B$)C", "\xFF\xFF\xFF\xFF\xFF\xFF\xFF\xFF"}

// noScalars are numbers that are no scalars, at both sides of what is one, and far away.
var noScalars = []rune{
	math.MinInt32, math.MinInt32 + 1, math.MinInt32 + '\n', math.MinInt32 + 'A', math.MinInt32 + 0xA5, math.MinInt32 + 0x203E, math.MinInt32 + 0x3042, math.MinInt32 + 0xAC00, math.MinInt32 + 0xFFFD, -0x1000000 + 'A', -0x1000000 + 0x3042, -0x110000, -0x10FFFF, -0x10000, -0xFFFD,
	-0x3042, -0x203E, -0x101, -0x100, -0xFF, -0xA5, -0x100 + '~', -0x100 + 'A', -0x81, -0x80, -0x7F, -'~', -'A', -0x1B, -'\n', -2, -1,
	0xD800, 0xD801, 0xD841, 0xDBFF, 0xDC00, 0xDC41, 0xDC7E, 0xDFFE, 0xDFFF,
	0x110000, 0x110001, 0x110000 + 'A', 0x1100A5, 0x113042, 0x11AC00, 0x11FFFD, 0x200000 + 'A', 0x1000000 + 'A', 0x10000A5, 0x1003042, 0x40000000 + 'A', 0x40003042, math.MaxInt32 - 0x7F, math.MaxInt32 - 1, math.MaxInt32,
}

// otherStates are none of either kind: other modes, near and far, such as become one of the three if some bits are lost, and each other field that is not zero, alone, beside every mode and beside others.
func otherStates() []api.State {
	var l []api.State
	for mode := -300; mode <= 600; mode++ {
		if mode < 0 || mode > 2 {
			l = append(l, in(mode))
		}
	}
	for _, far := range []int{1 << 8, 1 << 16, 1 << 31, 1 << 32, 1 << 40, 1 << 62, math.MinInt} {
		l = append(l, in(far), in(far+1), in(far+2), in(-far-1), in(-far-2))
	}
	l = append(l, in(math.MaxInt), in(math.MaxInt-1))
	for _, mode := range []int{0, 1, 2, 3, -1} {
		for _, n := range []int{math.MinInt, math.MinInt32, -256, -2, -1, 1, 2, 6, 8, 16, 255, 256, 65536, 1 << 32, math.MaxInt} {
			l = append(l, api.State{Mode: mode, Bits: n})
		}
		for _, n := range []uint32{1, 2, 255, 256, 65536, 1 << 31, math.MaxUint32} {
			l = append(l, api.State{Mode: mode, Acc: n})
		}
		for _, n := range []rune{math.MinInt32, -1, 1, 'A', '~', 0x80, 256, 0x3042, 0xD800, 0xFFFD, 65536, 0x10FFFF, math.MaxInt32} {
			l = append(l, api.State{Mode: mode, Held: n})
		}
		l = append(l, api.State{Mode: mode, Bits: 1, Acc: 1}, api.State{Mode: mode, Acc: 1, Held: 'A'}, api.State{Mode: mode, Bits: -1, Acc: 1}, api.State{Mode: mode, Bits: -1, Held: 1}, api.State{Mode: mode, Bits: 8, Acc: 255, Held: 0x3042})
	}
	return l
}

// otherKinds are neither of both: all near ones, and far ones, such as become one of both if some bits are lost.
func otherKinds() []int {
	l := []int{math.MinInt, math.MinInt + jp, math.MinInt + kr, math.MaxInt, -1 << 32, 1 << 32, math.MinInt32, math.MaxInt32, 1 << 62}
	for kind := -2000; kind <= 2000; kind++ {
		if kind != jp && kind != kr {
			l = append(l, kind)
		}
	}
	for _, kind := range kinds {
		l = append(l, 1<<16+kind, 1<<31+kind, 1<<32+kind, 1<<62+kind, -1<<16+kind, -1<<32+kind)
	}
	return l
}

// someBytes are such as are right, short or wrong, in one mode or another; none too.
func someBytes() [][]byte {
	all := [][]byte{nil, {}, []byte("\x1B("), []byte("\x1B(B"), []byte("\x1B(J"), []byte("\x1B$B"), []byte("\x1B$)"), []byte("\x1B$)C"), []byte("$\""), bytes.Repeat([]byte{'$'}, 100)}
	for n := range 256 {
		all = append(all, []byte{byte(n)}, []byte{'$', byte(n), 'A'})
	}
	return all
}

// someScalars are such as are right in one kind or another, and numbers that are no scalars.
var someScalars = append([]rune{0, 1, '\n', 0x0E, 0x0F, 0x1B, 'A', '\\', '~', 0x7F, 0x80, 0xA5, 0xFF, 0x203E, 0x3042, 0x4E00, 0xAC00, 0xFF71, 0xFFFD, 0x10000, 0x10FFFF}, noScalars...)

// TestExamples: the chapter's.
func TestExamples(t *testing.T) {
	if got, _ := writeAll(t, jp, []rune{'A', 0x3042, 0xA5}); got != "\x41\x1B\x24\x42\x24\x22\x1B\x28\x4A\x5C\x1B\x28\x42" {
		t.Errorf("%q", got)
	}
	checkGet(t, jp, in(0), []byte("\x1B\x28"), api.Got{Err: api.More})
	checkGet(t, jp, in(0), []byte("\x1B\x29"), api.Got{Err: api.Illegal, N: 1})
	if got, _ := writeAll(t, kr, []rune{0xAC00, 'A'}); got != "\x1B\x24\x29\x43\x0E\x30\x21\x0F\x41" {
		t.Errorf("%q", got)
	}
}

// The kinds and the states: any other is refused, the kind first.

// TestHas is promise 21.1: it is so of both and of no other number.
func TestHas(t *testing.T) {
	if !iso2022.Has(api.ISO2022JP) || !iso2022.Has(api.ISO2022KR) || !iso2022.Has(83) || !iso2022.Has(88) {
		t.Error("one of both is none")
	}
	for _, kind := range otherKinds() {
		if iso2022.Has(kind) {
			t.Errorf("%d is one", kind)
		}
	}
}

// TestOtherKinds: ErrKind and nothing else, whatever the bytes and the scalar, in states of both kinds and of neither.
func TestOtherKinds(t *testing.T) {
	states := []api.State{in(0), in(1), in(2), in(3), in(-1), in(math.MinInt), {Bits: 1}, {Mode: 1, Acc: 1}, {Mode: 2, Held: 'A'}, {Mode: 7, Bits: 7, Acc: 7, Held: 7}}
	texts := [][]byte{nil, {}, []byte("A"), []byte("\x1B"), []byte("\x1B(J"), []byte("\x1B$)C"), []byte("\x0E"), []byte("$"), []byte("$\""), []byte("\x80")}
	for _, kind := range otherKinds() {
		for _, s := range states {
			for _, b := range texts {
				checkGet(t, kind, s, b, api.Got{Err: api.ErrKind})
			}
			for _, u := range []rune{-1, 0, 0x0E, 0x1B, 'A', 0xA5, 0x203E, 0x3042, 0xAC00, 0xFFFD, 0xD800, 0x110000} {
				checkSet(t, kind, s, u, api.Put{Err: api.ErrKind})
			}
			checkEnd(t, kind, s, "", api.State{}, api.ErrKind)
		}
	}
}

// TestGetOtherStates: ErrState and nothing else, of no bytes too, and of such as are right, short or wrong.
func TestGetOtherStates(t *testing.T) {
	all := someBytes()
	for _, kind := range kinds {
		for _, s := range otherStates() {
			for _, b := range all {
				checkGet(t, kind, s, b, api.Got{Err: api.ErrState})
			}
		}
	}
}

// TestSetOtherStates: ErrState and nothing else, also of what has no place; and so of End.
func TestSetOtherStates(t *testing.T) {
	for _, kind := range kinds {
		for _, s := range otherStates() {
			for _, u := range someScalars {
				checkSet(t, kind, s, u, api.Put{Err: api.ErrState})
			}
			checkEnd(t, kind, s, "", api.State{}, api.ErrState)
		}
	}
}

// Promises 21.1 and 21.2: what is got.

// TestGetNothing: of no bytes there are more to come, in every mode; nothing else is told.
func TestGetNothing(t *testing.T) {
	for _, kind := range kinds {
		for mode := range 3 {
			checkGet(t, kind, in(mode), nil, api.Got{Err: api.More})
			checkGet(t, kind, in(mode), []byte{}, api.Got{Err: api.More})
			// What lies behind a list's end is none of it.
			for _, text := range []string{"A", "$\"", "\x1B(B", "\x1B$)C", "\x0E", "\x80"} {
				checkGet(t, kind, in(mode), []byte(text)[:0], api.Got{Err: api.More})
			}
		}
	}
}

// wantAloneJP is what one byte comes to in the modes of JP, written out.
func wantAloneJP(n int) [3]api.Got {
	if n == 0x1B {
		return [3]api.Got{{Err: api.More}, {Err: api.More}, {Err: api.More}}
	}
	if n >= 0x80 {
		return [3]api.Got{{Err: api.Illegal, N: 1}, {Err: api.Illegal, N: 1, S: in(1)}, {Err: api.Illegal, N: 1, S: in(2)}}
	}
	want := [3]api.Got{{N: 1, K: 1, A: rune(n)}, {N: 1, K: 1, A: rune(n), S: in(1)}, {N: 1, K: 1, A: rune(n), S: in(2)}}
	switch n {
	case 0x5C:
		want[1].A = 0xA5
	case 0x7E:
		want[1].A = 0x203E
	}
	if n >= 0x21 && n <= 0x7E {
		want[2] = api.Got{Err: api.More}
	}
	return want
}

// wantAloneKR is what one byte comes to in the modes of KR, written out.
func wantAloneKR(n int) [3]api.Got {
	switch {
	case n == 0x1B:
		return [3]api.Got{{Err: api.More}, {Err: api.More}, {Err: api.More}}
	case n == 0x0E:
		return [3]api.Got{{Err: api.Illegal, N: 1}, {N: 1, S: in(2)}, {N: 1, S: in(2)}}
	case n == 0x0F:
		return [3]api.Got{{Err: api.Illegal, N: 1}, {N: 1, S: in(1)}, {N: 1, S: in(1)}}
	case n >= 0x80:
		return [3]api.Got{{Err: api.Illegal, N: 1}, {Err: api.Illegal, N: 1, S: in(1)}, {Err: api.Illegal, N: 1, S: in(2)}}
	case n >= 0x21 && n <= 0x7E:
		return [3]api.Got{{N: 1, K: 1, A: rune(n), S: in(1)}, {N: 1, K: 1, A: rune(n), S: in(1)}, {Err: api.More}}
	}
	return [3]api.Got{{N: 1, K: 1, A: rune(n), S: in(1)}, {N: 1, K: 1, A: rune(n), S: in(1)}, {N: 1, K: 1, A: rune(n), S: in(2)}}
}

// TestGetAlone: every byte alone in every mode, with the answers written out.
func TestGetAlone(t *testing.T) {
	for n := range 256 {
		ofJP, ofKR := wantAloneJP(n), wantAloneKR(n)
		for _, behind := range []string{"", "!!", "(B", "$)C", "\x0E\x0E", "\x1B("} {
			// What lies behind a list's end is none of it.
			b := append([]byte{byte(n)}, behind...)[:1]
			for mode := range 3 {
				checkGet(t, jp, in(mode), b, ofJP[mode])
				checkGet(t, kr, in(mode), b, ofKR[mode])
			}
		}
	}
}

// TestGetPairs: in every mode every first byte with every second byte, and whatever follows.
func TestGetPairs(t *testing.T) {
	for _, kind := range kinds {
		m := newModel(t, kind)
		for mode := range 3 {
			t.Run(fmt.Sprint(kind, mode), func(t *testing.T) {
				t.Parallel()
				for n := range 1 << 16 {
					for _, tail := range tails {
						b := append([]byte{byte(n >> 8), byte(n)}, tail...)
						checkGet(t, kind, in(mode), b, m.wantGet(mode, b))
					}
				}
			})
		}
	}
}

// TestGetEscapes: in every mode 1B with any two bytes behind it, and any third behind those that begin the header.
func TestGetEscapes(t *testing.T) {
	for _, kind := range kinds {
		m := newModel(t, kind)
		for mode := range 3 {
			for n := range 1 << 16 {
				b := []byte{0x1B, byte(n >> 8), byte(n)}
				checkGet(t, kind, in(mode), b, m.wantGet(mode, b))
				b = append(b, 'C', 'A')
				checkGet(t, kind, in(mode), b, m.wantGet(mode, b))
			}
			for n := range 256 {
				b := []byte{0x1B, '$', ')', byte(n)}
				checkGet(t, kind, in(mode), b, m.wantGet(mode, b))
			}
		}
	}
}

// TestGetCounts: how many of all pairs come to what, as one reckons it from the chapter.
func TestGetCounts(t *testing.T) {
	type sort struct {
		err     api.Errno
		n, k, s int
	}
	for kind, modes := range map[int][3]map[sort]int{
		jp: {
			{{api.More, 0, 0, 0}: 2, {api.OK, 1, 1, 0}: 127 * 256, {api.Illegal, 1, 0, 0}: 128*256 + 254},
			{{api.More, 0, 0, 0}: 2, {api.OK, 1, 1, 1}: 127 * 256, {api.Illegal, 1, 0, 1}: 128*256 + 254},
			{
				{api.More, 0, 0, 0}:    2,
				{api.OK, 1, 1, 2}:      33 * 256,
				{api.OK, 2, 1, 2}:      placesJP,
				{api.Illegal, 2, 0, 2}: 94*94 - placesJP,
				{api.Illegal, 1, 0, 2}: 94*(256-94) + 128*256 + 254,
			},
		},
		kr: {
			{{api.More, 0, 0, 0}: 1, {api.OK, 1, 1, 1}: 125 * 256, {api.Illegal, 1, 0, 0}: 128*256 + 2*256 + 255},
			{
				{api.More, 0, 0, 0}:    1,
				{api.OK, 1, 1, 1}:      125 * 256,
				{api.OK, 1, 0, 2}:      256,
				{api.OK, 1, 0, 1}:      256,
				{api.Illegal, 1, 0, 1}: 128*256 + 255,
			},
			{
				{api.More, 0, 0, 0}:    1,
				{api.OK, 1, 1, 2}:      31 * 256,
				{api.OK, 1, 0, 2}:      256,
				{api.OK, 1, 0, 1}:      256,
				{api.OK, 2, 1, 2}:      placesKR,
				{api.Illegal, 2, 0, 2}: 94*94 - placesKR,
				{api.Illegal, 1, 0, 2}: 94*(256-94) + 128*256 + 255,
			},
		},
	} {
		for mode, want := range modes {
			got := map[sort]int{}
			for n := range 1 << 16 {
				g := iso2022.Get(kind, in(mode), []byte{byte(n >> 8), byte(n)})
				got[sort{g.Err, g.N, g.K, g.S.Mode}]++
			}
			if !maps.Equal(got, want) {
				t.Errorf("kind %d, mode %d: %v, want %v", kind, mode, got, want)
			}
		}
	}
}

// checkSequence: of a sequence, each beginning, each beginning with a byte behind it that makes it none, and the whole, whatever follows.
func checkSequence(t *testing.T, kind, mode int, text string, want api.Got, others string) {
	t.Helper()
	for n := 1; n < len(text); n++ {
		checkGet(t, kind, in(mode), []byte(text)[:n], api.Got{Err: api.More})
		for c := range 256 {
			if byte(c) == text[n] || strings.Contains(others, text[:n]+string(rune(c))) {
				continue
			}
			for _, tail := range tails {
				b := append(append([]byte(text[:n]), byte(c)), tail...)
				checkGet(t, kind, in(mode), b, api.Got{Err: api.Illegal, N: 1, S: in(mode)})
			}
		}
	}
	for _, tail := range tails {
		checkGet(t, kind, in(mode), []byte(text+tail), want)
	}
}

// TestGetSequences: all four of JP lead from every mode to theirs.
func TestGetSequences(t *testing.T) {
	const all = "\x1B(B \x1B(J \x1B$@ \x1B$B"
	for mode := range 3 {
		checkSequence(t, jp, mode, "\x1B\x28\x42", api.Got{N: 3}, all)
		checkSequence(t, jp, mode, "\x1B\x28\x4A", api.Got{N: 3, S: api.State{Mode: 1}}, all)
		checkSequence(t, jp, mode, "\x1B\x24\x40", api.Got{N: 3, S: api.State{Mode: 2}}, all)
		checkSequence(t, jp, mode, "\x1B\x24\x42", api.Got{N: 3, S: api.State{Mode: 2}}, all)
	}
}

// TestGetHeader: of KR it leads from Mode 0 to Mode 1; in the others the mode stays.
func TestGetHeader(t *testing.T) {
	checkSequence(t, kr, 0, "\x1B\x24\x29\x43", api.Got{N: 4, S: api.State{Mode: 1}}, "")
	checkSequence(t, kr, 1, "\x1B\x24\x29\x43", api.Got{N: 4, S: api.State{Mode: 1}}, "")
	checkSequence(t, kr, 2, "\x1B\x24\x29\x43", api.Got{N: 4, S: api.State{Mode: 2}}, "")
}

// TestGetOthersSequences: what leads from mode to mode in the one kind is none in the other.
func TestGetOthersSequences(t *testing.T) {
	for mode := range 3 {
		wrong := api.Got{Err: api.Illegal, N: 1, S: in(mode)}
		for _, tail := range tails {
			checkGet(t, jp, in(mode), []byte("\x1B$)"+tail), wrong)
			checkGet(t, jp, in(mode), []byte("\x1B$)C"+tail), wrong)
			checkGet(t, jp, in(mode), []byte("\x0E"+tail), api.Got{N: 1, K: 1, A: 0x0E, S: in(mode)})
			checkGet(t, jp, in(mode), []byte("\x0F"+tail), api.Got{N: 1, K: 1, A: 0x0F, S: in(mode)})
			for _, q := range []string{"\x1B(B", "\x1B(J", "\x1B$@", "\x1B$B", "\x1B("} {
				checkGet(t, kr, in(mode), []byte(q+tail), wrong)
			}
		}
	}
}

// TestGetShifts: of KR 0E and 0F lead within and outside in Mode 1 and 2, and are illegal in Mode 0, whatever follows.
func TestGetShifts(t *testing.T) {
	for _, tail := range tails {
		for _, c := range []byte{0x0E, 0x0F} {
			b := append([]byte{c}, tail...)
			checkGet(t, kr, in(0), b, api.Got{Err: api.Illegal, N: 1})
			for mode := 1; mode <= 2; mode++ {
				checkGet(t, kr, in(mode), b, api.Got{N: 1, S: api.State{Mode: map[byte]int{0x0E: 2, 0x0F: 1}[c]}})
			}
		}
	}
}

// TestGetHigh: a byte from 80 on is illegal in every mode and the state stays, whatever follows; so it is behind a byte of a row.
func TestGetHigh(t *testing.T) {
	for _, kind := range kinds {
		for mode := range 3 {
			for n := 0x80; n <= 0xFF; n++ {
				for _, tail := range tails {
					checkGet(t, kind, in(mode), append([]byte{byte(n)}, tail...), api.Got{Err: api.Illegal, N: 1, S: in(mode)})
				}
				checkGet(t, kind, in(2), []byte{'$', byte(n), '!'}, api.Got{Err: api.Illegal, N: 1, S: in(2)})
			}
		}
	}
}

// TestGetPlaces: pairs as one finds them in chapters 14 and 16 by eye, at the ends of rows too, whatever follows; and that outside of rows they are two bytes.
func TestGetPlaces(t *testing.T) {
	for kind, all := range map[int]map[string]rune{
		jp: {
			"!!": 0x3000, "!$": 0xFF0C, "!*": 0xFF01, "!~": 0x25C7, "\"!": 0x25C6, "\"~": 0x25EF, "#0": 0xFF10, "#A": 0xFF21, "#z": 0xFF5A, "$!": 0x3041, "$\"": 0x3042, "$s": 0x3093,
			"%!": 0x30A1, "%v": 0x30F6, "&!": 0x0391, "&X": 0x03C9, "'!": 0x0410, "''": 0x0401, "'q": 0x044F, "(!": 0x2500, "(@": 0x2542, "0!": 0x4E9C, "0\"": 0x5516, "0~": 0x852D,
		},
		kr: {
			"!!": 0x3000, "!$": 0x00B7, "!~": 0xFFE2, "\"!": 0x21D2, "\"g": 0x00AE, "#!": 0xFF01, "#\\": 0xFFE6, "#~": 0xFFE3, "$!": 0x3131, "$S": 0x3163, "$U": 0x3165, "$~": 0x318E,
			"%!": 0x2170, "%0": 0x2160, "&!": 0x2500, "'!": 0x3395, "(!": 0x00C6, "(~": 0x215E, ")!": 0x00E6, ")~": 0x2084, "*!": 0x3041, "*\"": 0x3042, "+!": 0x30A1, ",!": 0x0410, ",q": 0x044F,
			"0!": 0xAC00, "0\"": 0xAC01, "0~": 0xAD06, "J!": 0x4F3D, "J~": 0x9F95,
		},
	} {
		for text, u := range all {
			for _, tail := range tails {
				checkGet(t, kind, in(2), []byte(text+tail), api.Got{N: 2, K: 1, A: u, S: in(2)})
				checkGet(t, kind, in(1), []byte(text+tail), api.Got{N: 1, K: 1, A: rune(text[0]), S: in(1)})
			}
			checkGet(t, kind, in(2), []byte(text[:1]), api.Got{Err: api.More})
			checkSet(t, kind, in(2), u, api.Put{Bytes: text, S: in(2)})
		}
	}
}

// TestGetWrongPlaces: of rows the edges of what is illegal, and how much of it is passed over.
func TestGetWrongPlaces(t *testing.T) {
	for _, kind := range kinds {
		// Second bytes that are none, those that lead elsewhere among them, behind every first byte.
		for _, c := range []byte{0x00, 0x0A, 0x0D, 0x0E, 0x0F, 0x1B, 0x1F, 0x20, 0x7F, 0x80, 0xA1, 0xA2, 0xFE, 0xFF} {
			for lead := byte(0x21); lead <= 0x7E; lead++ {
				for _, tail := range tails {
					checkGet(t, kind, in(2), append([]byte{lead, c}, tail...), api.Got{Err: api.Illegal, N: 1, S: in(2)})
				}
			}
		}
		// Rows that are not listed, up to the last.
		for _, pair := range []string{"-!", "-~", "/!", "/~", "1!", "1~", "I~", "K!", "r!", "}}", "~!", "~}", "~~"} {
			for _, tail := range tails {
				checkGet(t, kind, in(2), []byte(pair+tail), api.Got{Err: api.Illegal, N: 2, S: in(2)})
			}
		}
	}
	// Cells that stand for nothing, in rows that are listed.
	for kind, pairs := range map[int][]string{jp: {"\"/", "\"}", "#!", "#/", "#~", "$t", "$~", "%w", "%~", "&9", "&~", "'r", "'~", "(A", "(~", "*!", ")!", "J!"}, kr: {"\"h", "\"~", "$T", "%+", "%~", "&~", "'~", "(%", "*t", "+~", ",~"}} {
		for _, pair := range pairs {
			for _, tail := range tails {
				checkGet(t, kind, in(2), []byte(pair+tail), api.Got{Err: api.Illegal, N: 2, S: in(2)})
			}
		}
	}
}

// TestReading: texts that Set would not write so, and what they are read as; the states behind them.
func TestReading(t *testing.T) {
	for _, c := range []struct {
		kind int
		text string
		want []rune
		s    api.State
		err  api.Errno
	}{
		{jp, "", nil, in(0), api.OK},
		{jp, "\x1B$@$\"\n$\"\x1B(BA", []rune{0x3042, '\n', 0x3042, 'A'}, in(0), api.OK},
		{jp, "\x1B$B\x1B$B$\"\x1B$@$\" $\"\x7F", []rune{0x3042, 0x3042, ' ', 0x3042, 0x7F}, in(2), api.OK},
		{jp, "\x1B(J\\A~\n\x0E\x1B(B\\A~\n\x0F", []rune{0xA5, 'A', 0x203E, '\n', 0x0E, '\\', 'A', '~', '\n', 0x0F}, in(0), api.OK},
		{jp, "\x1B$B\x0E\x0F\x1B(J\x1B(B\x1B(J", []rune{0x0E, 0x0F}, in(1), api.OK},
		{jp, "A\x1B(I", []rune{'A'}, in(0), api.Illegal},
		{jp, "A\x1B\x1B(B", []rune{'A'}, in(0), api.Illegal},
		{jp, "\x1B$B$\x1B(B", nil, in(2), api.Illegal},
		{jp, "\x1B$B$\"$", []rune{0x3042}, in(2), api.More},
		{jp, "\x1B$B$\"\x1B(", []rune{0x3042}, in(2), api.More},
		{jp, "\x1B(J\\\x1B", []rune{0xA5}, in(1), api.More},
		{kr, "", nil, in(0), api.OK},
		{kr, "\x1B$)C", nil, in(1), api.OK},
		{kr, "A\x1B$)CB", []rune{'A', 'B'}, in(1), api.OK},
		{kr, "A\x0E0!\x0F", []rune{'A', 0xAC00}, in(1), api.OK},
		{kr, "\x1B$)C\x0E0!\x1B$)C0!\n0! \x7F", []rune{0xAC00, 0xAC00, '\n', 0xAC00, ' ', 0x7F}, in(2), api.OK},
		{kr, "\x1B$)C\x0E\x0E0!\x0F\x0F0!", []rune{0xAC00, '0', '!'}, in(1), api.OK},
		{kr, "\x0E0!", nil, in(0), api.Illegal},
		{kr, "\x0F", nil, in(0), api.Illegal},
		{kr, "\x1BA", nil, in(0), api.Illegal},
		{kr, "\x80", nil, in(0), api.Illegal},
		{kr, "\x1B$)C\x0E0\x0F", nil, in(2), api.Illegal},
		{kr, "\x1B$)", nil, in(0), api.More},
		{kr, "A\x1B$", []rune{'A'}, in(1), api.More},
		{kr, "\x1B$)C\x0E0!0", []rune{0xAC00}, in(2), api.More},
	} {
		got, s, _, err := readFrom(c.kind, api.State{}, c.text)
		if !slices.Equal(got, c.want) || s != c.s || err != c.err {
			t.Errorf("kind %d: %q is read as %X, %+v, %d, want %X, %+v, %d", c.kind, c.text, got, s, int(err), c.want, c.s, int(c.err))
		}
	}
}

// TestLong is rule R6: bytes beyond every limit are read from the front alike.
func TestLong(t *testing.T) {
	b := []byte(strings.Repeat("$\"", 1+api.MaxIn/2))
	checkGet(t, jp, in(0), b, api.Got{N: 1, K: 1, A: '$'})
	checkGet(t, jp, in(2), b, api.Got{N: 2, K: 1, A: 0x3042, S: in(2)})
	checkGet(t, kr, in(0), b, api.Got{N: 1, K: 1, A: '$', S: in(1)})
	checkGet(t, kr, in(2), b, api.Got{N: 2, K: 1, A: 0x3132, S: in(2)})
	copy(b, "\x1B(J")
	checkGet(t, jp, in(0), b, api.Got{N: 3, S: in(1)})
	checkGet(t, kr, in(0), b, api.Got{Err: api.Illegal, N: 1})
	copy(b, "\x1B$)C")
	checkGet(t, jp, in(2), b, api.Got{Err: api.Illegal, N: 1, S: in(2)})
	checkGet(t, kr, in(0), b, api.Got{N: 4, S: in(1)})
}

// TestMemory is rule R4: what is handed in stays, also in the room behind a list's end.
func TestMemory(t *testing.T) {
	whole := []byte("A\x1B$B$\"~~$\x1B(J\\~\x1B(B\x1B$)C\x0E0!J~0\x0F\x1B\x80$\xFF\n")
	kept := bytes.Clone(whole)
	for _, kind := range kinds {
		for mode := range 3 {
			for n := range len(whole) + 1 {
				for from := range n + 1 {
					iso2022.Get(kind, in(mode), whole[from:n])
				}
			}
		}
	}
	if !bytes.Equal(whole, kept) {
		t.Errorf("% X are % X afterwards", kept, whole)
	}
}

// Promises 21.3 and 21.4: what is set.

// TestSetEvery: in every mode every scalar, and the numbers around them.
func TestSetEvery(t *testing.T) {
	for _, kind := range kinds {
		m := newModel(t, kind)
		for mode := range 3 {
			t.Run(fmt.Sprint(kind, mode), func(t *testing.T) {
				t.Parallel()
				for u := rune(-0x11000); u < 0x121000; u++ {
					checkSet(t, kind, in(mode), u, m.wantSet(mode, u))
				}
				for bit := range 32 {
					for d := range uint32(5) {
						u := rune(uint32(1)<<bit + d - 2)
						checkSet(t, kind, in(mode), u, m.wantSet(mode, u))
					}
				}
				// Numbers that a scalar could be taken for, if some of their bits were lost.
				for _, u := range m.scalars(-1) {
					for _, v := range []rune{-u, ^u, u - 0x100, u + 0x100, u - 0x10000, u + 0x10000, u + 0x110000, u + 0x1000000, u + 0x40000000, math.MinInt32 + u} {
						checkSet(t, kind, in(mode), v, m.wantSet(mode, v))
					}
				}
			})
		}
	}
}

// TestSetAlone: what is below 80, with the answers written out.
func TestSetAlone(t *testing.T) {
	for n := range 0x80 {
		text := string([]byte{byte(n)})
		if n != 0x1B {
			checkSet(t, jp, in(0), rune(n), api.Put{Bytes: text})
			checkSet(t, jp, in(1), rune(n), api.Put{Bytes: "\x1B\x28\x42" + text})
			checkSet(t, jp, in(2), rune(n), api.Put{Bytes: "\x1B\x28\x42" + text})
		}
		if n != 0x0E && n != 0x0F && n != 0x1B {
			checkSet(t, kr, in(0), rune(n), api.Put{Bytes: "\x1B\x24\x29\x43" + text, S: api.State{Mode: 1}})
			checkSet(t, kr, in(1), rune(n), api.Put{Bytes: text, S: api.State{Mode: 1}})
			checkSet(t, kr, in(2), rune(n), api.Put{Bytes: "\x0F" + text, S: api.State{Mode: 1}})
		}
	}
}

// TestSetHalf: U+00A5 and U+203E are JP's by the bytes of JIS X 0201, and none of KR's.
func TestSetHalf(t *testing.T) {
	for u, text := range map[rune]string{0xA5: "\x5C", 0x203E: "\x7E"} {
		checkSet(t, jp, in(0), u, api.Put{Bytes: "\x1B\x28\x4A" + text, S: api.State{Mode: 1}})
		checkSet(t, jp, in(1), u, api.Put{Bytes: text, S: api.State{Mode: 1}})
		checkSet(t, jp, in(2), u, api.Put{Bytes: "\x1B\x28\x4A" + text, S: api.State{Mode: 1}})
		for mode := range 3 {
			checkSet(t, kr, in(mode), u, api.Put{Err: api.None})
		}
	}
	// The other bytes of JIS X 0201 from 80 on are of eight bits.
	for u := rune(0xFF61); u <= 0xFF9F; u++ {
		for mode := range 3 {
			checkSet(t, jp, in(mode), u, api.Put{Err: api.None})
		}
	}
}

// TestSetPlaces: every cell of every row, both bytes with 20 added; Mode 2 behind it, whatever was ahead.
func TestSetPlaces(t *testing.T) {
	for kind, rows := range map[int]struct {
		rowOf  func(row int) []rune
		ahead  [3]string
		places int
	}{
		jp: {jis.Row, [3]string{"\x1B\x24\x42", "\x1B\x24\x42", ""}, placesJP},
		kr: {ksc.Row, [3]string{"\x1B\x24\x29\x43\x0E", "\x0E", ""}, placesKR},
	} {
		n := 0
		for row := 1; row <= 94; row++ {
			for i, u := range rows.rowOf(row) {
				if u == 0xFFFD {
					continue
				}
				n++
				for mode := range 3 {
					want := rows.ahead[mode] + fmt.Sprintf("%c%c", 0x20+row, 0x20+i+1)
					checkSet(t, kind, in(mode), u, api.Put{Bytes: want, S: api.State{Mode: 2}})
				}
			}
		}
		if n != rows.places {
			t.Errorf("kind %d: %d cells", kind, n)
		}
	}
}

// TestSetNone: what has no place, and what is no scalar: None and nothing else, the state neither, in every mode.
func TestSetNone(t *testing.T) {
	both := []rune{0x1B, 0x80, 0x81, 0x9B, 0xA0, 0xA9, 0xFF, 0x0100, 0x03C2, 0x2014, 0x2022, 0x4E01, 0x9FFF, 0xAC02, 0xD7A3, 0xE000, 0xFF61, 0xFF71, 0xFF9F, 0xFFFC, 0xFFFD, 0xFFFE, 0xFFFF, 0x10000, 0x1000A, 0x1001B, 0x1007E, 0x100A5, 0x13042, 0x1F600, 0x1FFFD, 0x10FFFD, 0x10FFFF}
	for mode := range 3 {
		for _, u := range append(both, noScalars...) {
			checkSet(t, jp, in(mode), u, api.Put{Err: api.None})
			checkSet(t, kr, in(mode), u, api.Put{Err: api.None})
		}
		for _, u := range []rune{0x20AC, 0xA1, 0xB7, 0xAC00, 0x3131, 0x4F3D, 0xFFE6} {
			checkSet(t, jp, in(mode), u, api.Put{Err: api.None})
		}
		for _, u := range []rune{0x0E, 0x0F, 0xA5, 0xAC, 0x203E, 0x4E9C, 0x309B, 0xFF5F} {
			checkSet(t, kr, in(mode), u, api.Put{Err: api.None})
		}
	}
}

// TestEnd: what leads back from each mode, and the state behind it.
func TestEnd(t *testing.T) {
	checkEnd(t, jp, in(0), "", api.State{}, api.OK)
	checkEnd(t, jp, in(1), "\x1B\x28\x42", api.State{}, api.OK)
	checkEnd(t, jp, in(2), "\x1B\x28\x42", api.State{}, api.OK)
	checkEnd(t, kr, in(0), "", api.State{}, api.OK)
	checkEnd(t, kr, in(1), "", api.State{Mode: 1}, api.OK)
	checkEnd(t, kr, in(2), "\x0F", api.State{Mode: 1}, api.OK)
	for _, kind := range kinds {
		m := newModel(t, kind)
		for mode, e := range m.ends {
			checkEnd(t, kind, in(mode), e.text, in(e.mode), api.OK)
		}
	}
}

// Promise 21.5: there and back.

// TestTexts: scalars and what they are written as, by eye.
func TestTexts(t *testing.T) {
	for kind, all := range map[int]map[string][]rune{
		jp: {
			"":                                  nil,
			"\x00":                              {0},
			"A":                                 {'A'},
			"\x0E\x0F":                          {0x0E, 0x0F},
			"\\~":                               {'\\', '~'},
			"\x1B(J\\\x1B(B":                    {0xA5},
			"\x1B(J\\~\\\x1B(B":                 {0xA5, 0x203E, 0xA5},
			"\x1B(J\\\x1B(B\\\x1B(J~\x1B(B~":    {0xA5, '\\', 0x203E, '~'},
			"\x1B(J~\x1B(BA":                    {0x203E, 'A'},
			"\x1B$B!!\x1B(B":                    {0x3000},
			"\x1B$B$\"$$\x1B(B\n\x1B$B0!\x1B(B": {0x3042, 0x3044, '\n', 0x4E9C},
			"\x1B$B$\"\x1B(J\\\x1B$B$\"\x1B(B":  {0x3042, 0xA5, 0x3042},
			"$\"\x1B$B$\"\x1B(B$\"":             {'$', '"', 0x3042, '$', '"'},
			"\x1B$B(@\x1B(B(B":                  {0x2542, '(', 'B'},
		},
		kr: {
			"":                               nil,
			"\x1B$)C\x00":                    {0},
			"\x1B$)CA":                       {'A'},
			"\x1B$)CA\n\\~":                  {'A', '\n', '\\', '~'},
			"\x1B$)C\x0E0!\x0F":              {0xAC00},
			"\x1B$)C\x0E0!0\"\x0F":           {0xAC00, 0xAC01},
			"\x1B$)C\x0E0!\x0F\n\x0EJ~\x0F":  {0xAC00, '\n', 0x9F95},
			"\x1B$)C0!\x0E0!\x0F0!":          {'0', '!', 0xAC00, '0', '!'},
			"\x1B$)C$)C\x0E$)#C\x0F$)C":      {'$', ')', 'C', 0x3139, 0xFF23, '$', ')', 'C'},
			"\x1B$)C \x0E!!\x0F \x0E!!\x0F ": {' ', 0x3000, ' ', 0x3000, ' '},
		},
	} {
		for text, l := range all {
			if got := checkThereAndBack(t, kind, l); got != text {
				t.Errorf("kind %d: %X are written as %q, want %q", kind, l, got, text)
			}
			checkCuts(t, kind, l)
		}
	}
}

// TestEveryStep: what Set writes for each scalar in each mode is read in that mode as the scalar, whatever follows, and leads to the mode that Set tells.
func TestEveryStep(t *testing.T) {
	for _, kind := range kinds {
		for _, u := range newModel(t, kind).scalars(-1) {
			for mode := range 3 {
				p := iso2022.Set(kind, in(mode), u)
				got, s, _, err := readFrom(kind, in(mode), p.Bytes)
				if !slices.Equal(got, []rune{u}) || s != p.S || err != api.OK || len(p.Bytes) > api.MaxStep {
					t.Fatalf("Set(%d, Mode %d, %X) = %s, which is read as %X, %+v, %d", kind, mode, u, told(p), got, s, int(err))
				}
				last, behind, _ := iso2022.End(kind, p.S)
				got, s, _, err = readFrom(kind, in(mode), p.Bytes+last)
				if !slices.Equal(got, []rune{u}) || s != behind || err != api.OK {
					t.Fatalf("Set(%d, Mode %d, %X) and End: %q, which is read as %X, %+v, %d", kind, mode, u, p.Bytes+last, got, s, int(err))
				}
			}
		}
	}
}

// TestEveryScalar: each that has a place, alone, twice, and between others of all sorts.
func TestEveryScalar(t *testing.T) {
	for _, kind := range kinds {
		all := newModel(t, kind).scalars(-1)
		for _, u := range all {
			for _, l := range [][]rune{{u}, {u, u}, {'A', u, 'B'}, {0x3042, u, 0x3000}, {0x3000, u, '~'}, {'\\', u, 0x3000}, {'\n', u, '\n'}, {0x3042, '$', u, '$', 0x3042}} {
				checkThereAndBack(t, kind, l)
			}
			checkCuts(t, kind, []rune{u, 'A', u, 0x3042, u})
			if kind == jp {
				checkThereAndBack(t, kind, []rune{0xA5, u, 0x203E, u, 0x3042})
			}
		}
		for i := range all {
			checkThereAndBack(t, kind, []rune{all[i], all[(i*7+3)%len(all)], all[(i*31+64)%len(all)]})
		}
		checkThereAndBack(t, kind, all)
	}
}

// TestShortRows: all rows of up to four of the scalars that could be taken for something else.
func TestShortRows(t *testing.T) {
	for kind, some := range map[int][]rune{
		jp: {'A', '\n', '\\', '~', '$', '(', 0x0E, 0xA5, 0x203E, 0x3042, 0x2542},
		kr: {'A', '\n', 0x0D, 0x10, '$', ')', 'C', 0xAC00, 0x3139, 0xFF23, 0x4F3D},
	} {
		rows := [][]rune{nil}
		for range 5 {
			var longer [][]rune
			for _, l := range rows {
				checkThereAndBack(t, kind, l)
				if len(l) <= 3 {
					checkCuts(t, kind, l)
				}
				for _, u := range some {
					longer = append(longer, append(slices.Clone(l), u))
				}
			}
			rows = longer
		}
	}
}

// TestRows: rows of any scalars, short and long, all sorts mixed, whole and in pieces; if they are short, cut anywhere.
func TestRows(t *testing.T) {
	for _, kind := range kinds {
		r := rand.New(rand.NewPCG(21, uint64(kind)))
		m := newModel(t, kind)
		sorts := [][]rune{m.scalars(0), m.scalars(1), m.scalars(2), {'\n', '$', '~', '\\', 0x3042}}
		if kind == kr {
			// No scalar is written so that Mode 0 is behind it.
			sorts = sorts[1:]
		}
		for i := range 3000 {
			long := 12
			if i%100 == 0 {
				long = 3000
			}
			var l []rune
			for range r.IntN(long) {
				from := sorts[r.IntN(len(sorts))]
				l = append(l, from[r.IntN(len(from))])
			}
			checkThereAndBack(t, kind, l)
			checkPieces(t, kind, l, r)
			if long == 12 {
				checkCuts(t, kind, l)
			}
		}
	}
}

// TestAnyBytes is promises 21.1 and 21.2: any bytes, read to their end from the zero State on, passing over what is illegal: every step is the document's, takes none beyond four or beyond the end, and comes to one of the states.
func TestAnyBytes(t *testing.T) {
	const often = "\x1B\x1B\x1B$$$((BJ@))C\x0E\x0E\x0F\n!!0\"A"
	sequences := []string{"\x1B(B", "\x1B(J", "\x1B$@", "\x1B$B", "\x1B$)C", "\x0E"}
	for _, kind := range kinds {
		r := rand.New(rand.NewPCG(21, 1))
		m := newModel(t, kind)
		for range 20000 {
			var b []byte
			for range r.IntN(24) {
				switch r.IntN(4) {
				case 0:
					b = append(b, byte(r.Uint32()))
				case 1:
					b = append(b, sequences[r.IntN(len(sequences))]...)
				default:
					b = append(b, often[r.IntN(len(often))])
				}
			}
			var s api.State
			for whole := b; ; {
				g := iso2022.Get(kind, s, b)
				if want := m.wantGet(s.Mode, b); g != want {
					t.Fatalf("of % X: Get(%d, %+v, % X) = %+v, want %+v", whole, kind, s, b, g, want)
				}
				if g.N < 0 || g.N > 4 || g.N > len(b) || (g.Err == api.More) != (g.N == 0) || g.Err == api.More && len(b) > 3 {
					t.Fatalf("Get(%d, %+v, % X) takes %d", kind, s, b, g.N)
				}
				if g.Err == api.More {
					break
				}
				s, b = g.S, b[g.N:]
				if s != in(s.Mode) || s.Mode < 0 || s.Mode > 2 {
					t.Fatalf("of % X: comes to %+v", whole, s)
				}
			}
		}
	}
}
