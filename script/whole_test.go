package script_test

import (
	"encoding/binary"
	"fmt"
	"math/rand/v2"
	"slices"
	"strings"
	"sync"
	"testing"

	"dragoman/api"
	"dragoman/engine"
	"dragoman/script"
)

// Through the whole program: every text here is run, and held against what the chapters say.

// eachKind runs a test for each kind at once.
func eachKind(t *testing.T, test func(t *testing.T, kind int)) {
	for _, kind := range kinds() {
		t.Run(first(kind), func(t *testing.T) {
			t.Parallel()
			test(t, kind)
		})
	}
}

// lot is lines that are run in texts as long as they may be.
type lot struct {
	t     *testing.T
	lines strings.Builder
}

func (l *lot) add(format string, args ...any) {
	l.t.Helper()
	line := fmt.Sprintf(format+"\n", args...)
	if l.lines.Len()+len(line) > api.MaxText {
		l.run()
	}
	l.lines.WriteString(line)
}

// run holds the lines against the model. No line of a lot hangs on one of another text.
func (l *lot) run() {
	l.t.Helper()
	holds(l.t, newModel(), l.lines.String())
	l.lines.Reset()
}

// inUTF32 is scalars in UTF-32BE.
func inUTF32(l ...rune) []byte {
	var b []byte
	for _, u := range l {
		b = binary.BigEndian.AppendUint32(b, uint32(u))
	}
	return b
}

// marks is those of windows-1258.
var marks = []rune{0x300, 0x301, 0x303, 0x309, 0x323}

// someScalars is all scalars up to FFFF, and of those beyond it the ends of all planes and some between.
var someScalars = sync.OnceValue(func() []rune {
	var all []rune
	for u := rune(0); u <= 0x10FFFF; u++ {
		switch low := u & 0xFFFF; {
		case u >= 0xD800 && u < 0xE000:
		case u <= 0xFFFF, low < 3, low > 0xFFFC, u%0x3FB == 0:
			all = append(all, u)
		}
	}
	return all
})

// placesOf is those of them that a kind has places for.
var placesOf = sync.OnceValue(func() map[int][]rune {
	all := map[int][]rune{}
	for _, kind := range kinds() {
		for _, u := range someScalars() {
			if _, _, ok := encodings()[kind].set(state{}, u); ok {
				all[kind] = append(all[kind], u)
			}
		}
	}
	return all
})

// TestModel holds the model itself against numbers that were counted in the document's lists.
func TestModel(t *testing.T) {
	names := 0
	for _, list := range kindNames() {
		names += len(list)
	}
	if len(kinds()) != 56 || names != 135 || len(kindsByNames()) != 135 || len(encodings()) != 56 || len(candidates()) != 118+94 {
		t.Errorf("%d kinds, %d names of which %d differ, %d encodings, %d scalars with candidates", len(kinds()), names, len(kindsByNames()), len(encodings()), len(candidates()))
	}
	for kind, want := range map[int]int{api.ASCII: 128, api.ISO1: 256, api.ISO6: 211, api.CP1252: 251, api.CP437: 256, api.CP037: 256, api.JIS0201: 191, api.JOHAB: 128 + 11172} {
		if got := len(placesOf()[kind]); got != want {
			t.Errorf("%s: %d places, want %d", first(kind), got, want)
		}
	}
}

// W1: every byte, pair and scalar is what the lists say.

func TestEveryByte(t *testing.T) {
	eachKind(t, func(t *testing.T, kind int) {
		l := &lot{t: t}
		for b := range 256 {
			l.add("all UTF-32BE %s %02X", first(kind), b)
			l.add("all UTF-32BE//IGNORE %s %02X", first(kind), b)
			l.add("all UTF-32BE %s 41%02X42", first(kind), b)
		}
		l.run()
	})
}

// shifts is what stands ahead of pairs, so that they meet the states of a kind in which bytes are other scalars: of those in rest only some pairs are tried.
var shifts = map[int]struct{ all, rest []string }{
	api.UTF8:      {[]string{"", "E0"}, []string{"E1", "ED", "F0", "F1", "F4", "F48F"}},
	api.UTF16BE:   {[]string{""}, []string{"D83D", "DBFF"}},
	api.UTF16LE:   {[]string{""}, []string{"3DD8", "FFDB"}},
	api.UTF16:     {[]string{"", "FFFE"}, []string{"FEFF", "FFFE3DD8", "D83D"}},
	api.UTF32BE:   {[]string{"0000"}, []string{"0001", "0010", "0011", "FFFF", "00"}},
	api.UTF32LE:   {nil, []string{"4100", "00D8", "FFFF", "41"}},
	api.UTF32:     {[]string{"0000"}, []string{"0000FEFF0000", "FFFE00004100", "0001"}},
	api.UCS2BE:    {[]string{""}, []string{"00"}},
	api.UCS2LE:    {[]string{""}, []string{"41"}},
	api.UTF7:      {[]string{"", "2B"}, []string{"2B41", "2B4141", "2B414141", "2B3244", "2B324433", "2B3244336541"}},
	api.CP1258:    {[]string{""}, []string{"41", "FD"}},
	api.EUCJP:     {[]string{""}, []string{"41", "A4"}},
	api.ShiftJIS:  {[]string{""}, []string{"41", "82"}},
	api.ISO2022JP: {[]string{"1B2442"}, []string{"", "1B284A", "1B2440", "1B24421B2842", "1B24423021"}},
	api.EUCCN:     {[]string{""}, []string{"41", "A4"}},
	api.HZ:        {[]string{"", "7E7B"}, []string{"7E7B7E7D", "7E7B3021"}},
	api.EUCKR:     {[]string{""}, []string{"41", "A4"}},
	api.JOHAB:     {[]string{""}, []string{"41", "88"}},
	api.ISO2022KR: {[]string{"1B2429430E"}, []string{"", "1B242943", "1B2429430E0F", "1B2429430E1B242943", "1B2429430E3021"}},
}

func TestEveryPair(t *testing.T) {
	eachKind(t, func(t *testing.T, kind int) {
		l := &lot{t: t}
		for _, shift := range shifts[kind].all {
			for pair := range 1 << 16 {
				l.add("all UTF-32BE %s %s%04X", first(kind), shift, pair)
			}
		}
		for _, shift := range shifts[kind].rest {
			for _, a := range telling {
				for b := range 256 {
					l.add("all UTF-32BE//IGNORE %s %s%02X%02X", first(kind), shift, a, b)
				}
			}
		}
		l.run()
	})
}

// wishes is what may stand behind a name.
var wishes = []string{"", "//TRANSLIT", "//IGNORE", "//TRANSLIT//IGNORE"}

func TestEveryScalar(t *testing.T) {
	eachKind(t, func(t *testing.T, kind int) {
		l := &lot{t: t}
		for part := range slices.Chunk(someScalars(), 8000) {
			l.add("all %s//IGNORE UTF-32BE %X", first(kind), inUTF32(part...))
		}
		for part := range slices.Chunk(placesOf()[kind], 8000) {
			l.add("all %s UTF-32BE %X", first(kind), inUTF32(part...))
		}
		for u := range rune(0x3000) {
			l.add("all %s UTF-32BE %X", first(kind), inUTF32(u))
		}
		l.run()
	})
}

// TestEveryCandidate has each scalar that something may stand for, with each wish, alone and amid what leads to another state.
func TestEveryCandidate(t *testing.T) {
	eachKind(t, func(t *testing.T, kind int) {
		var all []rune
		for u := range candidates() {
			all = append(all, u)
		}
		slices.Sort(all)
		l := &lot{t: t}
		for _, u := range all {
			for _, w := range wishes {
				l.add("all %s%s UTF-32BE %X", first(kind), w, inUTF32(u))
				l.add("all %s%s UTF-32BE %X", first(kind), w, inUTF32('A', 0x3042, u, 'B', 0xAC00, u))
			}
		}
		l.run()
	})
}

// TestAllScalarsWithTranslit has all scalars, to some kinds, so that nothing stands in a place where the list says nothing.
func TestAllScalarsWithTranslit(t *testing.T) {
	for _, kind := range []int{api.ASCII, api.ISO1, api.CP037, api.ISO2022JP, api.JOHAB} {
		t.Run(first(kind), func(t *testing.T) {
			t.Parallel()
			l := &lot{t: t}
			for part := range slices.Chunk(someScalars(), 8000) {
				l.add("all %s//TRANSLIT//IGNORE UTF-32BE %X", first(kind), inUTF32(part...))
			}
			l.run()
		})
	}
}

// W2: rows of calls of all sorts, each answer as the chapters say.

// telling is bytes with which something begins, goes on or ends in some kind.
var telling = []byte("\x00\n\x0E\x0F\x1B !\"$()+-0@ABCJ\\aw{}~\x7F\x80\x81\x82\x88\x8E\x9F\xA0\xA1\xA4\xB0\xBF\xC2\xCC\xD8\xDC\xDF\xE0\xEC\xED\xEF\xF0\xF4\xFC\xFE\xFF")

// someScalar is one that some kinds have places for, and some have not.
func someScalar(r *rand.Rand, kind int) rune {
	if l := placesOf()[kind]; r.IntN(4) > 0 {
		return l[r.IntN(len(l))]
	}
	all := []rune("AE~\\+-! \n\u00A5\u00C0\u00C4\u00E9\u0103\u0152\u0300\u0301\u0323\u0411\u05D0\u0627\u1EA4\u2019\u201C\u203E\u20A9\u20AC\u2500\u3000\u3042\u4E9C\u554A\uAC00\uD55C\uFF21\uFF71\uFFFD\uFEFF\U0001F600")
	return all[r.IntN(len(all))]
}

// someText is bytes of a kind: scalars of it, with or without bytes of all sorts between, whole or cut off.
func someText(r *rand.Rand, kind, most int) []byte {
	var all []byte
	var s state
	wrong := r.IntN(3)
	for range r.IntN(most + 1) {
		if r.IntN(12) < wrong {
			all = append(all, telling[r.IntN(len(telling))])
			continue
		}
		if r.IntN(12) == 0 {
			var last string
			last, s = encodings()[kind].end(s)
			all = append(all, last...)
		}
		if text, behind, ok := encodings()[kind].set(s, someScalar(r, kind)); ok {
			all = append(all, text...)
			s = behind
		}
	}
	if wrong > 0 && r.IntN(3) == 0 {
		all = all[:r.IntN(len(all)+1)]
	}
	return all
}

// someCalls is a text of calls, of which most have something to do.
func someCalls(r *rand.Rand, n int) string {
	var text strings.Builder
	var from [9]int
	open := 0
	for range n {
		h := r.IntN(9)
		switch r.IntN(20) {
		case 0, 1, 2:
			kind := kinds()[r.IntN(len(kinds()))]
			fmt.Fprintf(&text, "open %s%s %s%s\n", first(kinds()[r.IntN(len(kinds()))]), wishes[r.IntN(4)], first(kind), wishes[r.IntN(4)])
			// The numbers are only guessed, so that some calls meet a conversion from another kind.
			open = open%8 + 1
			from[open] = kind
		case 3:
			fmt.Fprintf(&text, "open UTF-8 %s\n", refused[r.IntN(len(refused)-1)].name)
		case 4:
			fmt.Fprintf(&text, "close %d\n", h)
		case 5:
			text.WriteString("live\n")
		case 6, 7:
			fmt.Fprintf(&text, "reset %d %d\n", h, r.IntN(7))
		case 8:
			kind := kinds()[r.IntN(len(kinds()))]
			fmt.Fprintf(&text, "all %s%s %s %s\n", first(kinds()[r.IntN(len(kinds()))]), wishes[r.IntN(4)], first(kind), inDigits(someText(r, kind, 12)))
		default:
			kind := max(from[h], 1)
			fmt.Fprintf(&text, "convert %d %s %d\n", h, inDigits(someText(r, kind, 12)), r.IntN(30))
		}
	}
	return text.String()
}

func TestRowsOfCalls(t *testing.T) {
	for seed := range uint64(48) {
		t.Run(fmt.Sprint(seed), func(t *testing.T) {
			t.Parallel()
			r := rand.New(rand.NewPCG(26, 1000+seed))
			for range 10 {
				text := someCalls(r, 500)
				told := holds(t, newModel(), text)
				inBounds(t, strings.Split(text, "\n"), told)
			}
		})
	}
}

// TestAnyLines has lines of all sorts, well formed or not, against the model.
func TestAnyLines(t *testing.T) {
	r := rand.New(rand.NewPCG(26, 1100))
	for range 100 {
		holds(t, newModel(), someLines(r, 400))
	}
}

// W5: nothing beyond the room or the input, More only where fewer than 4 bytes are left. (That nothing panics, all tests here tell.)

// inBounds holds what lines tell, each with words, against the bounds.
func inBounds(t *testing.T, lines, told []string) {
	t.Helper()
	for i, line := range told {
		words := strings.Fields(lines[i])
		switch words[0] {
		case "convert":
			took, out, odd, err := asDone(t, line)
			in, room := bytesOf(words[2]), numberOf(words[3])
			if took > len(in) || len(out) > room || odd > len(out) || err == api.More && len(in)-took >= 4 || err == api.More && took == len(in) {
				t.Fatalf("%s: %s: beyond the bounds", lines[i], line)
			}
			if err == api.OK && took != len(in) || err == api.Full && took == len(in) {
				t.Fatalf("%s: %s: not all is taken, or all", lines[i], line)
			}
		case "reset":
			took, out, odd, err := asDone(t, line)
			if took != 0 || len(out) > numberOf(words[2]) || odd > 1 || err == api.More {
				t.Fatalf("%s: %s: beyond the bounds", lines[i], line)
			}
		}
	}
}

// TestBoundsOfAnyBytes has any bytes, of each kind, under any room.
func TestBoundsOfAnyBytes(t *testing.T) {
	eachKind(t, func(t *testing.T, kind int) {
		r := rand.New(rand.NewPCG(26, 1200+uint64(kind)))
		var lines []string
		for _, w := range wishes {
			lines = append(lines, fmt.Sprintf("open %s%s %s", first(kinds()[r.IntN(len(kinds()))]), w, first(kind)))
			lines = append(lines, fmt.Sprintf("open UTF-7%s %s", w, first(kind)))
		}
		for range 800 {
			b := someBytes(r, r.IntN(12))
			if r.IntN(2) == 0 {
				for i := range b {
					b[i] = telling[r.IntN(len(telling))]
				}
			}
			lines = append(lines, fmt.Sprintf("convert %d %s %d", r.IntN(8)+1, inDigits(b), r.IntN(20)))
			if r.IntN(10) == 0 {
				lines = append(lines, fmt.Sprintf("reset %d %d", r.IntN(8)+1, r.IntN(9)))
			}
		}
		text := strings.Join(lines, "\n")
		inBounds(t, lines, holds(t, newModel(), text))
	})
}

// player writes the lines by which a text goes through a conversion, and knows from the model what each call takes, so that the next one goes on there.
type player struct {
	t     *testing.T
	model *model
	text  strings.Builder
	told  []string
}

func newPlayer(t *testing.T) *player {
	return &player{t: t, model: newModel().(*model)}
}

func (p *player) line(format string, args ...any) string {
	line := fmt.Sprintf(format, args...)
	told := lineTells(p.model, strings.Fields(line))
	p.text.WriteString(line + "\n")
	p.told = append(p.told, told)
	return told
}

func (p *player) open(to, from string) int { return numberOf(p.line("open %s %s", to, from)) }

func (p *player) convert(h int, in []byte, room int) engine.Done {
	took, out, odd, err := asDone(p.t, p.line("convert %d %s %d", h, inDigits(in), room))
	return engine.Done{Took: took, Out: out, Odd: odd, Err: err}
}

func (p *player) reset(h, room int) engine.Done {
	took, out, odd, err := asDone(p.t, p.line("reset %d %d", h, room))
	return engine.Done{Took: took, Out: out, Odd: odd, Err: err}
}

// run runs all that was played, and holds it against what was told.
func (p *player) run() {
	p.t.Helper()
	if p.text.Len() > api.MaxText {
		p.t.Fatalf("%d bytes were played", p.text.Len())
	}
	runs(p.t, p.text.String(), p.told...)
	inBounds(p.t, strings.Split(p.text.String(), "\n"), p.told)
}

// outcome is what several calls have done together.
type outcome struct {
	took, odd int
	out       string
	illegal   int
}

func (o *outcome) add(d engine.Done) {
	o.took += d.Took
	o.odd += d.Odd
	o.out += string(d.Out)
	if d.Err == api.Illegal {
		o.illegal++
	}
}

// pieces hands a text in in pieces, each under some room, till it is taken or something ends it, and resets then.
func (p *player) pieces(h int, text []byte, piece, room func() int) outcome {
	var o outcome
	var left []byte
	for calls := 0; ; calls++ {
		n := min(piece(), len(text))
		// Texts may not be longer than MaxText, so not too much is handed in again and again.
		if len(left) > 30 {
			n = 0
		}
		left = append(left, text[:n]...)
		text = text[n:]
		d := p.convert(h, left, room()+calls/20)
		o.add(d)
		left = left[d.Took:]
		if d.Err == api.Illegal && len(left) > 0 {
			return o
		}
		if len(text) == 0 && (len(left) == 0 || d.Err == api.More) {
			break
		}
	}
	if len(left) == 0 {
		last := p.reset(h, 0)
		for room := 1; last.Err == api.Full; room++ {
			last = p.reset(h, room)
		}
		o.add(last)
	}
	return o
}

// W3: there and back, whatever the rooms.

func TestThereAndBack(t *testing.T) {
	eachKind(t, func(t *testing.T, kind int) {
		r := rand.New(rand.NewPCG(26, 1300+uint64(kind)))
		has := slices.DeleteFunc(slices.Clone(placesOf()[kind]), func(u rune) bool {
			return kind == api.CP1258 && slices.Contains(marks, u)
		})
		r.Shuffle(len(has), func(i, j int) { has[i], has[j] = has[j], has[i] })
		for part := range slices.Chunk(has, 200) {
			want := inUTF32(part...)
			p := newPlayer(t)
			room := func() int { return r.IntN(40) }
			piece := func() int { return r.IntN(120) }
			there := p.pieces(p.open(first(kind), "UTF-32BE"), want, piece, room)
			back := p.pieces(p.open("UTF-32BE", first(kind)), []byte(there.out), piece, room)
			p.run()
			if there.took != len(want) || back.took != len(there.out) || back.out != string(want) || there.odd+back.odd+there.illegal+back.illegal != 0 {
				t.Fatalf("%X there: %X, and back: %X", want, there.out, back.out)
			}
			whole := script.Run(fmt.Sprintf("all %s UTF-32BE %X\nall UTF-32BE %s %X", first(kind), want, first(kind), there.out))
			if whole != fmt.Sprintf("%X 0 0\n%X 0 0\n", there.out, want) {
				t.Fatalf("%X there and back at once: %s", want, whole)
			}
		}
	})
}

// TestMarksThereAndBack has the marks of windows-1258 behind what makes nothing of them, and behind a letter.
func TestMarksThereAndBack(t *testing.T) {
	for _, mark := range marks {
		for _, text := range [][]rune{{mark}, {mark, 'A'}, {'B', mark, mark}, {0xC0, mark}, {'A', 'B', mark}, {'A', '\n', mark}} {
			in := fmt.Sprintf("%X", inUTF32(text...))
			there := strings.Fields(script.Run("all CP1258 UTF-32BE " + in))
			runs(t, "all UTF-32BE CP1258 "+there[0], in+" 0 0")
		}
	}
	runs(t, "all CP1258 UTF-32BE 0000004100000300\nall UTF-32BE CP1258 41CC", "41CC 0 0", "000000C0 0 0")
}

// W4: cuts and rooms do not matter.

func TestCutsAndRooms(t *testing.T) {
	eachKind(t, func(t *testing.T, kind int) {
		r := rand.New(rand.NewPCG(26, 1400+uint64(kind)))
		for range 60 {
			to := first(kinds()[r.IntN(len(kinds()))]) + wishes[r.IntN(4)]
			text := someText(r, kind, 16)
			p := newPlayer(t)
			fixed := func(n int) func() int { return func() int { return n } }
			want := p.pieces(p.open(to, first(kind)), text, fixed(len(text)), fixed(999999))
			p.run()
			for _, sizes := range [][2]int{{1, 64}, {1, 3}, {3, 9}, {9, 2}} {
				piece := func() int { return r.IntN(sizes[0] + 1) }
				room := func() int { return r.IntN(sizes[1] + 1) }
				p := newPlayer(t)
				got := p.pieces(p.open(to, first(kind)), text, piece, room)
				p.run()
				if got.took != want.took || got.odd != want.odd || got.out != want.out {
					t.Fatalf("%X from %s to %s: %+v in pieces, %+v at once", text, first(kind), to, got, want)
				}
			}
			told := strings.Fields(script.Run(fmt.Sprintf("all %s %s %s", to, first(kind), inDigits(text))))
			if told[0] != inDigits([]byte(want.out)) || numberOf(told[1]) != want.odd {
				t.Fatalf("%X from %s to %s: %+v, but all %s", text, first(kind), to, want, told)
			}
		}
	})
}

// W4: without wishes a conversion stops ahead of the first thing that is wrong, with translit the first candidate that has places stands there, with ignore all else goes on, and it is told once.

// hasAll tells whether a kind has places for all scalars of a text.
func hasAll(kind int, text string) bool {
	for _, u := range text {
		if _, _, ok := encodings()[kind].set(state{}, u); !ok {
			return false
		}
	}
	return true
}

// standIns is scalars that a kind has no places for, each with the first of what may stand there that has.
func standIns(kind int) map[rune]string {
	all := map[rune]string{}
	for u, list := range candidates() {
		for _, text := range slices.Backward(list) {
			if !hasAll(kind, string(u)) && hasAll(kind, text) {
				all[u] = text
			}
		}
	}
	return all
}

// A kind that has all scalars up to FFFF has nothing for which another may stand.
func TestStopsAndWishes(t *testing.T) {
	const never = "\uFFFE"
	eachKind(t, func(t *testing.T, kind int) {
		ins := standIns(kind)
		if len(ins) < 20 && !hasAll(kind, never) {
			t.Errorf("only %d scalars have something in their place", len(ins))
		}
		encoded := func(text string) string {
			b, _, _ := newModel().all(first(kind), "UTF-8", []byte(text))
			return string(b)
		}
		for u, text := range ins {
			in := "AB" + string(u) + "C" + never + "D" + string(u) + "E"
			p := newPlayer(t)
			for _, c := range []struct {
				wish, taken, out string
				odd              int
			}{
				{"", "AB", encoded("AB"), 0},
				{"//TRANSLIT", "AB" + string(u) + "C", encoded("AB" + text + "C"), 1},
				{"//IGNORE", in, encoded("ABCDE"), 0},
				{"//TRANSLIT//IGNORE", in, encoded("AB" + text + "CD" + text + "E"), 2},
			} {
				h := p.open(first(kind)+c.wish, "UTF-8")
				d := p.convert(h, []byte(in), 999)
				if string(d.Out) != c.out || d.Took != len(c.taken) || d.Odd != c.odd || d.Err != api.Illegal {
					t.Errorf("%s of %X: %+v, want %+v", c.wish, in, d, c)
				}
				if d := p.convert(h, []byte("A"), 99); d.Err != api.OK || d.Took != 1 {
					t.Errorf("%s of %X: %+v behind it", c.wish, in, d)
				}
				if d := p.reset(h, 99); d.Err != api.OK {
					t.Errorf("%s of %X: %+v in the end", c.wish, in, d)
				}
			}
			p.run()
		}
	})
}

// TestIllegalAmid has something illegal amid what is right.
func TestIllegalAmid(t *testing.T) {
	for _, c := range []struct {
		kind int
		bad  string
	}{
		{api.ASCII, "\x80"}, {api.UTF8, "\xFF"}, {api.UTF8, "\xE2\x82"}, {api.UTF16BE, "\xDC\x00"}, {api.UTF16LE, "\x00\xDC"}, {api.UTF16, "\xDC\x00"},
		{api.UTF32BE, "\x00\x11\x00\x00"}, {api.UTF32LE, "\x00\x00\x11\x00"}, {api.UTF32, "\x00\x00\xD8\x00"}, {api.UCS2BE, "\xD8\x00"}, {api.UCS2LE, "\x00\xDF"}, {api.UTF7, "~"}, {api.UTF7, "\x80"},
		{api.ISO3, "\xA5"}, {api.ISO6, "\xFF"}, {api.ISO7, "\xAE"}, {api.ISO8, "\xA1"}, {api.ISO11, "\xFF"},
		{api.CP1250, "\x81"}, {api.CP1251, "\x98"}, {api.CP1252, "\x81"}, {api.CP1253, "\xAA"}, {api.CP1254, "\x9E"}, {api.CP1255, "\xD9"}, {api.CP1257, "\xA1"}, {api.CP1258, "\x8A"},
		{api.JIS0201, "\xA0"}, {api.EUCJP, "\x80"}, {api.EUCJP, "\xFE\xFE"}, {api.ShiftJIS, "\xA0"}, {api.ShiftJIS, "\xEF\xFC"}, {api.ISO2022JP, "\x80"}, {api.ISO2022JP, "\x1B"},
		{api.EUCCN, "\x8E"}, {api.HZ, "\x80"}, {api.HZ, "~"}, {api.EUCKR, "\xFF"}, {api.JOHAB, "\xD4"}, {api.JOHAB, "\x88\x60"}, {api.ISO2022KR, "\x80"}, {api.ISO2022KR, "\x1B"},
	} {
		front, s, _ := encodings()[c.kind].set(state{}, 'A')
		again, _, _ := encodings()[c.kind].set(s, 'A')
		in := []byte(front + c.bad + again)
		p := newPlayer(t)
		stops, goes := p.open("ASCII", first(c.kind)), p.open("ASCII//IGNORE", first(c.kind))
		d := p.convert(stops, in, 9)
		last := p.reset(stops, 9)
		if d.Took != len(front) || d.Err != api.Illegal || string(d.Out)+string(last.Out) != "A" || last.Err != api.OK {
			t.Errorf("%s: %+v and %+v", first(c.kind), d, last)
		}
		d = p.convert(goes, in, 9)
		last = p.reset(goes, 9)
		if d.Took != len(in) || d.Err != api.Illegal || string(d.Out)+string(last.Out) != "AA" || last.Err != api.OK {
			t.Errorf("%s with ignore: %+v and %+v", first(c.kind), d, last)
		}
		p.run()
	}
}

// The document's ten examples of the whole.

func TestTenExamples(t *testing.T) {
	runs(t, "all ISO-8859-1//TRANSLIT UTF-8 61C3A4E282AC", "61E4455552 1 0")
	runs(t, "open ISO-8859-1 UTF-8\nopen ISO-8859-1//IGNORE UTF-8\nconvert 1 61C3A4E282AC 99\nconvert 2 61C3A4E282AC 99", "1", "2", "3 61E4 0 10", "6 61E4 0 10")
	runs(t, "all ISO-8859-1 UTF-8 61C3A4E282AC\nall ISO-8859-1//IGNORE UTF-8 61C3A4E282AC", "61E4 0 10", "61E4 0 10")
	runs(t, "open ISO-2022-JP UTF-8\nconvert 1 E38182 99\nreset 1 99", "1", "3 1B24422422 0 0", "0 1B2842 0 0")
	runs(t, "open ISO-8859-1 UTF-8\nconvert 1 C3 9\nconvert 1 C3A4 9", "1", "0 - 0 1", "2 E4 0 0")
	runs(t, "all ASCII UTF-16 FFFE4100", "41 0 0")
	runs(t, "all UTF-8 windows-1258 41CC", "C380 0 0")
	runs(t, "all JOHAB UTF-16BE D55C", "D065 0 0")
	runs(t, "all UTF-7 UTF-8 4869202B20C3A4", fmt.Sprintf("%X 0 0", "Hi +- +AOQ-"))
	text := "abcdefghijklmnopqrst"
	runs(t, fmt.Sprintf("open ISO-8859-1 UTF-8\nconvert 1 %X 10\nconvert 1 %X 10", text, text[10:]), "1", fmt.Sprintf("10 %X 0 4", text[:10]), fmt.Sprintf("10 %X 0 0", text[10:]))
	runs(t, "open KOI8-R UTF-8\nconvert 1 D0AF 9", "1", "2 F1 0 0")
}
