package script_test

import (
	"encoding/hex"
	"fmt"
	"math"
	"regexp"
	"slices"
	"strconv"
	"strings"
	"sync"

	"dragoman/api"
	"dragoman/engine"
	"dragoman/names"
)

// calls is what the table of the lines names.
type calls interface {
	Open(to, from string) (int, api.Errno)
	Convert(h int, in []byte, room int) engine.Done
	Reset(h int, room int) engine.Done
	Close(h int) api.Errno
	Live() []int
	all(to, from string, in []byte) ([]byte, int, api.Errno)
	name(n int) string
}

// program is the layers' own calls.
type program struct{ *engine.Table }

func newProgram() calls { return program{engine.New()} }

func (program) all(to, from string, in []byte) ([]byte, int, api.Errno) {
	return engine.All(to, from, in)
}

func (program) name(n int) string { return names.Name(n) }

// kindNames is the names of all kinds, by their numbers.
var kindNames = sync.OnceValue(func() map[int][]string {
	all := map[int][]string{}
	for line := range strings.Lines(strings.TrimSpace(chapterNames)) {
		number, list, _ := strings.Cut(strings.TrimSpace(line), ": ")
		all[whole(number, 10)] = strings.Split(list, ", ")
	}
	return all
})

// kinds is the numbers of all kinds, rising.
var kinds = sync.OnceValue(func() []int {
	var all []int
	for kind := range kindNames() {
		all = append(all, kind)
	}
	slices.Sort(all)
	return all
})

// kindsByNames is the kinds, by names in large letters.
var kindsByNames = sync.OnceValue(func() map[string]int {
	all := map[string]int{}
	for kind, list := range kindNames() {
		for _, name := range list {
			all[name] = kind
		}
	}
	return all
})

// first is a kind's first name.
func first(kind int) string { return kindNames()[kind][0] }

// conversion is chapter 25's, as a value: a call answers the one behind it.
type conversion struct {
	from, to         encoding
	reading, writing state
	translit, ignore bool
	passed           bool
}

// asLarge is a text with its small letters taken as large ones.
func asLarge(s string) string {
	return strings.Map(func(u rune) rune {
		if u >= 'a' && u <= 'z' {
			return u - 'a' + 'A'
		}
		return u
	}, s)
}

// wished is names.Parse, as chapter 23 says it.
func wished(s string) (kind int, translit, ignore bool, err api.Errno) {
	if len(s) > api.MaxName {
		return 0, false, false, api.ErrLong
	}
	parts := strings.Split(asLarge(s), "//")
	kind, ok := kindsByNames()[parts[0]]
	if !ok {
		return 0, false, false, api.ErrName
	}
	for _, part := range parts[1:] {
		switch part {
		case "":
		case "TRANSLIT":
			translit = true
		case "IGNORE":
			ignore = true
		default:
			return 0, false, false, api.ErrField
		}
	}
	return kind, translit, ignore, api.OK
}

// newConversion is one by its names.
func newConversion(to, from string) (conversion, api.Errno) {
	target, translit, ignore, err := wished(to)
	if err != api.OK {
		return conversion{}, err
	}
	source, _, _, err := wished(from)
	if err != api.OK {
		return conversion{}, err
	}
	return conversion{from: encodings()[source], to: encodings()[target], translit: translit, ignore: ignore}, api.OK
}

// written is what scalars come to.
type written struct {
	text   string
	odd    int
	passed bool
	behind state
}

// write writes scalars as a step does, and tells whether they have places.
func (c conversion) write(l []rune) (written, bool) {
	w := written{behind: c.writing}
	for _, u := range l {
		if text, behind, ok := c.to.set(w.behind, u); ok {
			w.text += text
			w.behind = behind
		} else if text, behind, ok := c.instead(w.behind, u); ok {
			w.text += text
			w.behind = behind
			w.odd++
		} else if c.ignore {
			w.passed = true
		} else {
			return written{}, false
		}
	}
	return w, true
}

// instead is the first candidate all of whose scalars have places.
func (c conversion) instead(s state, u rune) (string, state, bool) {
	if !c.translit {
		return "", state{}, false
	}
candidate:
	for _, text := range candidates()[u] {
		var all string
		behind := s
		for _, v := range text {
			more, next, ok := c.to.set(behind, v)
			if !ok {
				continue candidate
			}
			all += more
			behind = next
		}
		return all, behind, true
	}
	return "", state{}, false
}

// tell is what a call tells that has taken all.
func (c *conversion) tell() api.Errno {
	passed := c.passed
	c.passed = false
	if passed {
		return api.Illegal
	}
	return api.OK
}

// convert is promise 25.2, of one that is open.
func (c *conversion) convert(in []byte, room int) engine.Done {
	var d engine.Done
	for d.Took < len(in) {
		g := c.from.get(c.reading, in[d.Took:])
		var w written
		switch {
		case g.err == api.Illegal && c.ignore:
			w = written{passed: true, behind: c.writing}
		case g.err != api.OK:
			d.Err = g.err
			return d
		default:
			var ok bool
			w, ok = c.write(g.scalars)
			if !ok {
				d.Err = api.Illegal
				return d
			}
			if len(w.text) > room-len(d.Out) {
				d.Err = api.Full
				return d
			}
		}
		d.Took += g.took
		d.Out = append(d.Out, w.text...)
		d.Odd += w.odd
		c.reading, c.writing = g.behind, w.behind
		c.passed = c.passed || w.passed
	}
	d.Err = c.tell()
	return d
}

// reset is promise 25.3, of one that is open.
func (c *conversion) reset(room int) engine.Done {
	var held []rune
	if c.reading.letter != 0 {
		held = append(held, c.reading.letter)
	}
	w, ok := c.write(held)
	if !ok {
		return engine.Done{Err: api.Illegal}
	}
	last, behind := c.to.end(w.behind)
	if len(w.text)+len(last) > room {
		return engine.Done{Err: api.Full}
	}
	c.reading, c.writing = state{}, behind
	c.passed = c.passed || w.passed
	return engine.Done{Out: []byte(w.text + last), Odd: w.odd, Err: c.tell()}
}

// model is the calls as the chapters say them, without the program.
type model struct {
	open []*conversion
}

func newModel() calls { return &model{make([]*conversion, api.MaxDescs+1)} }

func (m *model) find(h int) *conversion {
	if h < 0 || h >= len(m.open) {
		return nil
	}
	return m.open[h]
}

func (m *model) Open(to, from string) (int, api.Errno) {
	c, err := newConversion(to, from)
	if err != api.OK {
		return 0, err
	}
	for h := 1; h < len(m.open); h++ {
		if m.open[h] == nil {
			m.open[h] = &c
			return h, api.OK
		}
	}
	return 0, api.ErrLong
}

func (m *model) Convert(h int, in []byte, room int) engine.Done {
	c := m.find(h)
	if c == nil {
		return engine.Done{Err: api.ErrState}
	}
	return c.convert(in, room)
}

func (m *model) Reset(h int, room int) engine.Done {
	c := m.find(h)
	if c == nil {
		return engine.Done{Err: api.ErrState}
	}
	return c.reset(room)
}

func (m *model) Close(h int) api.Errno {
	if m.find(h) == nil {
		return api.ErrState
	}
	m.open[h] = nil
	return api.OK
}

func (m *model) Live() []int {
	var all []int
	for h, c := range m.open {
		if c != nil {
			all = append(all, h)
		}
	}
	return all
}

func (m *model) all(to, from string, in []byte) ([]byte, int, api.Errno) {
	c, err := newConversion(to, from)
	if err != api.OK {
		return nil, 0, err
	}
	d := c.convert(in, math.MaxInt)
	if d.Took < len(in) {
		return d.Out, d.Odd, d.Err
	}
	last := c.reset(math.MaxInt)
	if d.Err == api.OK {
		d.Err = last.Err
	}
	return append(d.Out, last.Out...), d.Odd + last.Odd, d.Err
}

func (m *model) name(n int) string {
	if list := kindNames()[n]; list != nil {
		return list[0]
	}
	return ""
}

// inDigits is bytes as they are told.
func inDigits(b []byte) string {
	if len(b) == 0 {
		return "-"
	}
	return strings.ToUpper(hex.EncodeToString(b))
}

// shape is what the words behind a first word are, each a letter: a text, a number or bytes.
var shapes = map[string]string{"open": "tt", "convert": "nbn", "reset": "nn", "close": "n", "live": "", "all": "ttb", "name": "n"}

var (
	wordIs   = regexp.MustCompile(`[^ ]+`)
	numberIs = regexp.MustCompile(`\A[0-9]{1,9}\z`)
	bytesAre = regexp.MustCompile(`\A(?:-|(?:[0-9A-Fa-f]{2})+)\z`)
)

// wellFormed is the error of a line's words, if there is one.
func wellFormed(words []string) api.Errno {
	shape, ok := shapes[words[0]]
	if !ok || len(words) != 1+len(shape) {
		return api.ErrCommand
	}
	for i, letter := range shape {
		word := words[1+i]
		if letter == 'n' && !numberIs.MatchString(word) || letter == 'b' && !bytesAre.MatchString(word) {
			return api.ErrField
		}
	}
	return api.OK
}

// numberOf and bytesOf are those of words that are well formed.
func numberOf(word string) int {
	n, err := strconv.Atoi(word)
	if err != nil {
		panic(err)
	}
	return n
}

func bytesOf(word string) []byte {
	b, err := hex.DecodeString(strings.TrimPrefix(word, "-"))
	if err != nil {
		panic(err)
	}
	return b
}

func doneIs(d engine.Done) string {
	return fmt.Sprintf("%d %s %d %d", d.Took, inDigits(d.Out), d.Odd, int(d.Err))
}

func orDash(s string) string {
	if s == "" {
		return "-"
	}
	return s
}

// lineTells is what a line with words does by some calls, and tells.
func lineTells(c calls, words []string) string {
	if err := wellFormed(words); err != api.OK {
		return fmt.Sprintf("error %d", int(err))
	}
	switch words[0] {
	case "open":
		h, err := c.Open(words[1], words[2])
		if err != api.OK {
			return fmt.Sprintf("error %d", int(err))
		}
		return fmt.Sprint(h)
	case "convert":
		return doneIs(c.Convert(numberOf(words[1]), bytesOf(words[2]), numberOf(words[3])))
	case "reset":
		return doneIs(c.Reset(numberOf(words[1]), numberOf(words[2])))
	case "close":
		if err := c.Close(numberOf(words[1])); err != api.OK {
			return fmt.Sprintf("error %d", int(err))
		}
		return "ok"
	case "live":
		return orDash(strings.Trim(fmt.Sprint(c.Live()), "[]"))
	case "all":
		b, odd, err := c.all(words[1], words[2], bytesOf(words[3]))
		return fmt.Sprintf("%s %d %d", inDigits(b), odd, int(err))
	}
	return orDash(c.name(numberOf(words[1])))
}

// tells is what the lines of a text tell, one by one, by some calls.
func tells(c calls, text string) []string {
	if len(text) > api.MaxText {
		return []string{"error 8"}
	}
	var all []string
	for _, line := range strings.Split(text, "\n") {
		if words := wordIs.FindAllString(line, -1); len(words) > 0 {
			all = append(all, lineTells(c, words))
		}
	}
	return all
}
