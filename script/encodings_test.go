package script_test

import (
	"encoding/binary"
	"fmt"
	"slices"
	"strconv"
	"strings"
	"sync"
	"unicode/utf16"
	"unicode/utf8"

	"dragoman/api"
)

// What stands here is what the chapters say of the encodings, written once more, by other means where there are any: no layer of the program is asked.

// state is what one step leaves to the next.
type state struct {
	mode   int
	bits   string // UTF-7: those left over, each a digit
	high   rune   // UTF-7: a high surrogate that was read
	letter rune   // windows-1258: the letter that is held
}

// step is what stands at the front of some bytes.
type step struct {
	err     api.Errno
	took    int
	behind  state
	scalars []rune
}

func more() step { return step{err: api.More} }

func illegal(took int, behind state) step {
	return step{err: api.Illegal, took: took, behind: behind}
}

func gives(took int, behind state, scalars ...rune) step {
	return step{took: took, behind: behind, scalars: scalars}
}

// encoding is what a kind's chapter says.
type encoding interface {
	get(s state, b []byte) step
	set(s state, u rune) (string, state, bool)
	end(s state) (string, state)
}

// stays is the end of an encoding that has nothing to lead back to.
type stays struct{}

func (stays) end(s state) (string, state) { return "", s }

// absent is what stands in a list for nothing.
const absent = -1

// readList is the scalars that a list of the document says, one by one.
func readList(list string) []rune {
	var all []rune
	for _, word := range strings.Fields(list) {
		if count, ok := strings.CutPrefix(word, "----"); ok {
			n := 1
			if count != "" {
				n = whole(strings.TrimPrefix(count, "*"), 10)
			}
			all = append(all, slices.Repeat([]rune{absent}, n)...)
			continue
		}
		first, last, ok := strings.Cut(word, "-")
		if !ok {
			last = first
		}
		for u := whole(first, 16); u <= whole(last, 16); u++ {
			all = append(all, rune(u))
		}
	}
	return all
}

// whole is a number of the document's lists.
func whole(digits string, base int) int {
	n, err := strconv.ParseUint(digits, base, 21)
	if err != nil {
		panic(err)
	}
	return int(n)
}

// single is a kind whose bytes stand for scalars.
type single struct {
	stays
	scalars []rune
	bytes   map[rune]byte
}

func newSingle(scalars []rune) single {
	if len(scalars) != 256 {
		panic(len(scalars))
	}
	x := single{scalars: scalars, bytes: map[rune]byte{}}
	for b, u := range slices.Backward(scalars) {
		if u != absent {
			x.bytes[u] = byte(b)
		}
	}
	return x
}

// counted is the scalars from 0 on, so many.
func counted(n int) []rune {
	var all []rune
	for u := range n {
		all = append(all, rune(u))
	}
	return all
}

func (x single) get(_ state, b []byte) step {
	if len(b) == 0 {
		return more()
	}
	u := x.scalars[b[0]]
	if u == absent {
		return illegal(1, state{})
	}
	return gives(1, state{}, u)
}

func (x single) set(_ state, u rune) (string, state, bool) {
	b, ok := x.bytes[u]
	if !ok {
		return "", state{}, false
	}
	return string([]byte{b}), state{}, true
}

// half is JIS X 0201.
var half = sync.OnceValue(func() single {
	l := counted(256)
	l[0x5C], l[0x7E] = 0xA5, 0x203E
	for b := 0x80; b < 256; b++ {
		l[b] = absent
		if b >= 0xA1 && b <= 0xDF {
			l[b] = 0xFF61 + rune(b-0xA1)
		}
	}
	return newSingle(l)
})

// rows is a set in rows and cells.
type rows struct {
	scalars map[[2]byte]rune
	places  map[rune][2]byte
}

func newRows(lists []chapterRow) rows {
	x := rows{map[[2]byte]rune{}, map[rune][2]byte{}}
	for _, r := range lists {
		l := readList(r.list)
		if len(l) != 94 {
			panic(r.row)
		}
		for i, u := range l {
			if u == absent {
				continue
			}
			at := [2]byte{byte(r.row), byte(i + 1)}
			x.scalars[at] = u
			if _, ok := x.places[u]; !ok {
				x.places[u] = at
			}
		}
	}
	return x
}

var (
	rowsJIS = sync.OnceValue(func() rows { return newRows(chapterJIS) })
	rowsGB  = sync.OnceValue(func() rows { return newRows(chapterGB) })
	rowsKSC = sync.OnceValue(func() rows { return newRows(chapterKSC) })
)

// at is the scalar of two bytes, each so much more than the row and the cell: of a step that takes both.
func (x rows) at(s state, b []byte, above byte) step {
	if u, ok := x.scalars[[2]byte{b[0] - above, b[1] - above}]; ok {
		return gives(2, s, u)
	}
	return illegal(2, s)
}

// place is a scalar's two bytes.
func (x rows) place(u rune, above byte) (string, bool) {
	at, ok := x.places[u]
	return string([]byte{at[0] + above, at[1] + above}), ok
}

// inUTF8 is chapter 3, by the library's own.
type inUTF8 struct{ stays }

func (inUTF8) get(_ state, b []byte) step {
	if !utf8.FullRune(b) {
		return more()
	}
	if u, n := utf8.DecodeRune(b); u != utf8.RuneError || n != 1 {
		return gives(n, state{}, u)
	}
	n := 1
	for n < len(b) && !utf8.FullRune(b[:n+1]) {
		n++
	}
	return illegal(n, state{})
}

func (inUTF8) set(_ state, u rune) (string, state, bool) {
	return string(u), state{}, utf8.ValidRune(u)
}

// order is in which order bytes stand.
type order interface {
	binary.ByteOrder
	binary.AppendByteOrder
}

// wide is a kind of chapter 4 that has no mark.
type wide struct {
	stays
	order order
	size  int
	pairs bool
}

func (x wide) number(b []byte) rune {
	if x.size == 2 {
		return rune(x.order.Uint16(b))
	}
	return rune(x.order.Uint32(b))
}

func (x wide) get(_ state, b []byte) step {
	if len(b) < x.size {
		return more()
	}
	u := x.number(b)
	if x.pairs && u >= 0xD800 && u < 0xDC00 {
		if len(b) < 4 {
			return more()
		}
		if both := utf16.DecodeRune(u, x.number(b[2:])); both != utf8.RuneError {
			return gives(4, state{}, both)
		}
	}
	if !utf8.ValidRune(u) {
		return illegal(x.size, state{})
	}
	return gives(x.size, state{}, u)
}

func (x wide) set(_ state, u rune) (string, state, bool) {
	var b []byte
	switch {
	case !utf8.ValidRune(u), x.size == 2 && !x.pairs && u > 0xFFFF:
		return "", state{}, false
	case x.size == 4:
		b = x.order.AppendUint32(b, uint32(u))
	default:
		for _, unit := range utf16.AppendRune(nil, u) {
			b = x.order.AppendUint16(b, unit)
		}
	}
	return string(b), state{}, true
}

// marked is a kind of chapter 4 that has one.
type marked struct {
	stays
	big, little wide
}

func (x marked) in(s state) wide {
	if s.mode == 2 {
		return x.little
	}
	return x.big
}

func (x marked) get(s state, b []byte) step {
	if s.mode == 0 && len(b) >= x.big.size {
		switch rune(0xFEFF) {
		case x.big.number(b):
			return gives(x.big.size, state{mode: 1})
		case x.little.number(b):
			return gives(x.big.size, state{mode: 2})
		}
		s.mode = 1
	}
	g := x.in(s).get(state{}, b)
	if g.err != api.More {
		g.behind = s
	}
	return g
}

func (x marked) set(s state, u rune) (string, state, bool) {
	text, _, ok := x.in(s).set(state{}, u)
	if ok && s.mode == 0 {
		mark, _, _ := x.big.set(state{}, 0xFEFF)
		return mark + text, state{mode: 1}, true
	}
	return text, s, ok
}

// inUTF7 is chapter 5; bits are texts of 0 and 1.
type inUTF7 struct{}

const (
	letters = "ABCDEFGHIJKLMNOPQRSTUVWXYZabcdefghijklmnopqrstuvwxyz0123456789"
	base64  = letters + "+/"
	plain   = letters + "'(),-./:? \t\n\r"
	itself  = plain + "!\"#$%&*;<=>@[]^_`{|}"
)

// Modes of UTF-7.
const (
	outside = iota
	within
	begun
)

func (x inUTF7) get(s state, b []byte) step {
	if len(b) == 0 {
		return more()
	}
	c := b[0]
	six := strings.IndexByte(base64, c)
	stands := strings.IndexByte(itself, c) >= 0
	left := s.high != 0 || len(s.bits) >= 6 || strings.Contains(s.bits, "1")
	switch {
	case s.mode == outside && c == '+':
		return gives(1, state{mode: begun})
	case s.mode == begun && c == '-':
		return gives(1, state{}, '+')
	case s.mode != outside && six >= 0:
		return x.digit(s, six)
	case s.mode == begun, s.mode == within && left:
		return illegal(1, state{})
	case s.mode == within && c == '-':
		return gives(1, state{})
	case stands:
		return gives(1, state{}, rune(c))
	}
	return illegal(1, state{})
}

// digit puts six bits more behind those left over.
func (inUTF7) digit(s state, six int) step {
	bits := s.bits + fmt.Sprintf("%06b", six)
	if len(bits) < 16 {
		return gives(1, state{mode: within, bits: bits, high: s.high})
	}
	unit := rune(whole(bits[:16], 2))
	behind := state{mode: within, bits: bits[16:]}
	switch {
	case !utf16.IsSurrogate(unit) && s.high == 0:
		return gives(1, behind, unit)
	case unit >= 0xD800 && unit < 0xDC00 && s.high == 0:
		behind.high = unit
		return gives(1, behind)
	case unit >= 0xDC00 && unit < 0xE000 && s.high != 0:
		return gives(1, behind, utf16.DecodeRune(s.high, unit))
	}
	return illegal(1, state{})
}

// flush is the digit of bits that are left over.
func flush(bits string) string {
	if bits == "" {
		return ""
	}
	return base64[whole((bits + "00000")[:6], 2):][:1]
}

func (inUTF7) set(s state, u rune) (string, state, bool) {
	if !utf8.ValidRune(u) {
		return "", state{}, false
	}
	c := string(u)
	switch {
	case strings.Contains(plain, c):
		if s.mode == within && strings.Contains(base64+"-", c) {
			return flush(s.bits) + "-" + c, state{}, true
		}
		return flush(s.bits) + c, state{}, true
	case c == "+" && s.mode == outside:
		return "+-", state{}, true
	}
	var out strings.Builder
	if s.mode == outside {
		out.WriteByte('+')
	}
	bits := s.bits
	for _, unit := range utf16.Encode([]rune{u}) {
		bits += fmt.Sprintf("%016b", unit)
	}
	for ; len(bits) >= 6; bits = bits[6:] {
		out.WriteString(flush(bits[:6]))
	}
	return out.String(), state{mode: within, bits: bits}, true
}

func (inUTF7) end(s state) (string, state) {
	if s.mode == outside {
		return "", state{}
	}
	return flush(s.bits) + "-", state{}
}

// vietnamese is chapter 13.
type vietnamese struct {
	single
	results map[[2]rune]rune
	parts   map[rune][2]rune
	held    map[rune]bool
}

func newVietnamese(table single) vietnamese {
	x := vietnamese{table, map[[2]rune]rune{}, map[rune][2]rune{}, map[rune]bool{}}
	for _, m := range chapterMarks {
		for _, word := range strings.Fields(m.list) {
			left, right, _ := strings.Cut(word, "=")
			letter, result := rune(whole(left, 16)), rune(whole(right, 16))
			x.results[[2]rune{letter, m.mark}] = result
			x.parts[result] = [2]rune{letter, m.mark}
			x.held[letter] = true
		}
	}
	return x
}

func (x vietnamese) get(s state, b []byte) step {
	g := x.single.get(state{}, b)
	switch g.err {
	case api.More:
		return g
	case api.Illegal:
		return illegal(1, s)
	}
	c := g.scalars[0]
	if both, ok := x.results[[2]rune{s.letter, c}]; ok {
		return gives(1, state{}, both)
	}
	var all []rune
	if s.letter != 0 {
		all = append(all, s.letter)
	}
	if x.held[c] {
		return gives(1, state{letter: c}, all...)
	}
	return gives(1, state{}, append(all, c)...)
}

func (x vietnamese) set(s state, u rune) (string, state, bool) {
	if text, _, ok := x.single.set(state{}, u); ok {
		return text, state{}, true
	}
	parts, ok := x.parts[u]
	if !ok {
		return "", state{}, false
	}
	return string([]byte{x.bytes[parts[0]], x.bytes[parts[1]]}), state{}, true
}

// inEUC is chapter 17.
type inEUC struct {
	stays
	rows  rows
	halfs bool
}

func (x inEUC) get(_ state, b []byte) step {
	if len(b) == 0 {
		return more()
	}
	first := b[0]
	switch {
	case first < 0x80:
		return gives(1, state{}, rune(first))
	case first == 0xFF, first < 0xA1 && (first != 0x8E || !x.halfs):
		return illegal(1, state{})
	case len(b) == 1:
		return more()
	}
	second := b[1]
	switch {
	case first == 0x8E && second >= 0xA1 && second <= 0xDF:
		return gives(2, state{}, half().scalars[second])
	case first == 0x8E, second < 0xA1, second == 0xFF:
		return illegal(1, state{})
	}
	return x.rows.at(state{}, b, 0xA0)
}

func (x inEUC) set(_ state, u rune) (string, state, bool) {
	if u < 0x80 {
		return string(u), state{}, true
	}
	if text, ok := x.rows.place(u, 0xA0); ok {
		return text, state{}, true
	}
	if x.halfs && u >= 0xFF61 && u <= 0xFF9F {
		return "\x8E" + string([]byte{half().bytes[u]}), state{}, true
	}
	return "", state{}, false
}

// shiftJIS is chapter 18: what every row and cell is folded to stands in a map.
type shiftJIS struct {
	stays
	folded   map[[2]byte][2]byte
	unfolded map[[2]byte][2]byte
}

func newShiftJIS() shiftJIS {
	x := shiftJIS{folded: map[[2]byte][2]byte{}, unfolded: map[[2]byte][2]byte{}}
	for k := 0; k <= 46; k++ {
		lead := 0x81 + k
		if lead > 0x9F {
			lead = 0xC1 + k
		}
		for c := 1; c <= 94; c++ {
			trail := 0x3F + c
			if c > 63 {
				trail = 0x40 + c
			}
			x.add(2*k+1, c, lead, trail)
			x.add(2*k+2, c, lead, 0x9E+c)
		}
	}
	return x
}

func (x shiftJIS) add(row, cell, lead, trail int) {
	place, pair := [2]byte{byte(row), byte(cell)}, [2]byte{byte(lead), byte(trail)}
	x.folded[place] = pair
	x.unfolded[pair] = place
}

func (x shiftJIS) get(_ state, b []byte) step {
	if len(b) == 0 {
		return more()
	}
	if !(b[0] >= 0x81 && b[0] <= 0x9F || b[0] >= 0xE0 && b[0] <= 0xEF) {
		return half().get(state{}, b)
	}
	if len(b) == 1 {
		return more()
	}
	// Each lead has a row for each trail, so what is unknown has no trail.
	place, ok := x.unfolded[[2]byte(b)]
	if !ok {
		return illegal(1, state{})
	}
	return rowsJIS().at(state{}, place[:], 0)
}

func (x shiftJIS) set(_ state, u rune) (string, state, bool) {
	if text, _, ok := half().set(state{}, u); ok {
		return text, state{}, true
	}
	place, ok := rowsJIS().places[u]
	if !ok {
		return "", state{}, false
	}
	pair := x.folded[place]
	return string(pair[:]), state{}, true
}

// inJOHAB is chapter 19: all codes stand in a map.
type inJOHAB struct {
	stays
	syllables map[[2]byte]rune
	codes     map[rune]string
	leads     map[byte]bool
}

func newJOHAB() inJOHAB {
	x := inJOHAB{syllables: map[[2]byte]rune{}, codes: map[rune]string{}, leads: map[byte]bool{}}
	u := rune(0xAC00)
	for first := 2; first <= 20; first++ {
		for _, middle := range []int{3, 4, 5, 6, 7, 10, 11, 12, 13, 14, 15, 18, 19, 20, 21, 22, 23, 26, 27, 28, 29} {
			for _, last := range []int{1, 2, 3, 4, 5, 6, 7, 8, 9, 10, 11, 12, 13, 14, 15, 16, 17, 19, 20, 21, 22, 23, 24, 25, 26, 27, 28, 29} {
				code := whole(fmt.Sprintf("1%05b%05b%05b", first, middle, last), 2)
				pair := [2]byte{byte(code / 256), byte(code % 256)}
				x.syllables[pair] = u
				x.codes[u] = string(pair[:])
				x.leads[pair[0]] = true
				u++
			}
		}
	}
	if u != 0xD7A4 {
		panic(u)
	}
	return x
}

func (x inJOHAB) get(_ state, b []byte) step {
	switch {
	case len(b) == 0:
		return more()
	case b[0] == 0x5C:
		return gives(1, state{}, 0x20A9)
	case b[0] < 0x80:
		return gives(1, state{}, rune(b[0]))
	case !x.leads[b[0]]:
		return illegal(1, state{})
	case len(b) == 1:
		return more()
	}
	if u, ok := x.syllables[[2]byte(b)]; ok {
		return gives(2, state{}, u)
	}
	return illegal(2, state{})
}

func (x inJOHAB) set(_ state, u rune) (string, state, bool) {
	switch {
	case u == 0x20A9:
		return "\x5C", state{}, true
	case u < 0x80:
		return string(u), state{}, u != 0x5C
	}
	text, ok := x.codes[u]
	return text, state{}, ok
}

// inHZ is chapter 20; its modes are named as those of UTF-7.
type inHZ struct{}

func (inHZ) get(s state, b []byte) step {
	switch {
	case len(b) == 0:
		return more()
	case b[0] == '~' && len(b) == 1:
		return more()
	case b[0] == '~' && s.mode == outside:
		switch b[1] {
		case '~':
			return gives(2, s, '~')
		case '{':
			return gives(2, state{mode: within})
		case '\n':
			return gives(2, s)
		}
		return illegal(1, s)
	case b[0] == '~' && b[1] == '}':
		return gives(2, state{})
	case s.mode == outside && b[0] < 0x80, b[0] == '\n':
		return gives(1, state{}, rune(b[0]))
	case s.mode == outside, b[0] < 0x21, b[0] > 0x77:
		return illegal(1, s)
	}
	return pairOf(rowsGB(), s, b)
}

// pairOf is a row and a cell in seven bits.
func pairOf(x rows, s state, b []byte) step {
	if len(b) == 1 {
		return more()
	}
	if b[1] < 0x21 || b[1] > 0x7E {
		return illegal(1, s)
	}
	return x.at(s, b, 0x20)
}

func (x inHZ) set(s state, u rune) (string, state, bool) {
	if u < 0x80 {
		back, _ := x.end(s)
		if u == '~' {
			return back + "~~", state{}, true
		}
		return back + string(u), state{}, true
	}
	text, ok := rowsGB().place(u, 0x20)
	if !ok || text[0] > 0x77 {
		return "", state{}, false
	}
	if s.mode == outside {
		text = "~{" + text
	}
	return text, state{mode: within}, true
}

func (inHZ) end(s state) (string, state) {
	if s.mode == within {
		return "~}", state{}
	}
	return "", state{}
}

// begins tells of a text whether it stands at the front, or all that is there is a beginning of it.
func begins(b []byte, text string) (stands, begun bool) {
	return strings.HasPrefix(string(b), text), len(b) < len(text) && strings.HasPrefix(text, string(b))
}

// jp is ISO-2022-JP.
type jp struct{}

// leads is what leads to each of its modes, in reading.
var leads = []struct {
	text string
	mode int
}{{"\x1B(B", 0}, {"\x1B(J", 1}, {"\x1B$@", 2}, {"\x1B$B", 2}}

func (jp) get(s state, b []byte) step {
	for _, l := range leads {
		stands, begun := begins(b, l.text)
		if begun {
			return more()
		}
		if stands {
			return gives(3, state{mode: l.mode})
		}
	}
	switch {
	case b[0] == 0x1B, b[0] >= 0x80:
		return illegal(1, s)
	case s.mode == 1:
		return gives(1, s, half().scalars[b[0]])
	case s.mode == 0, b[0] <= 0x20, b[0] == 0x7F:
		return gives(1, s, rune(b[0]))
	}
	return pairOf(rowsJIS(), s, b)
}

func (jp) set(s state, u rune) (string, state, bool) {
	text, ahead, mode := "", "", 0
	switch pair, ok := rowsJIS().place(u, 0x20); {
	case u == 0x1B:
		return "", state{}, false
	case u < 0x80:
		text, ahead, mode = string(u), "\x1B(B", 0
	case u == 0xA5:
		text, ahead, mode = "\x5C", "\x1B(J", 1
	case u == 0x203E:
		text, ahead, mode = "\x7E", "\x1B(J", 1
	case ok:
		text, ahead, mode = pair, "\x1B$B", 2
	default:
		return "", state{}, false
	}
	if s.mode != mode {
		text = ahead + text
	}
	return text, state{mode: mode}, true
}

func (jp) end(s state) (string, state) {
	if s.mode == 0 {
		return "", state{}
	}
	return "\x1B(B", state{}
}

// kr is ISO-2022-KR.
type kr struct{}

const header = "\x1B$)C"

func (kr) get(s state, b []byte) step {
	stands, begun := begins(b, header)
	switch {
	case begun:
		return more()
	case stands:
		return gives(4, state{mode: max(s.mode, 1)})
	case b[0] == 0x1B, b[0] >= 0x80, s.mode == 0 && (b[0] == 0x0E || b[0] == 0x0F):
		return illegal(1, s)
	case b[0] == 0x0E:
		return gives(1, state{mode: 2})
	case b[0] == 0x0F:
		return gives(1, state{mode: 1})
	case s.mode < 2:
		return gives(1, state{mode: 1}, rune(b[0]))
	case b[0] <= 0x20, b[0] == 0x7F:
		return gives(1, s, rune(b[0]))
	}
	return pairOf(rowsKSC(), s, b)
}

func (kr) set(s state, u rune) (string, state, bool) {
	text, mode := string(u), 1
	if u >= 0x80 {
		pair, ok := rowsKSC().place(u, 0x20)
		if !ok {
			return "", state{}, false
		}
		text, mode = pair, 2
	} else if u == 0x0E || u == 0x0F || u == 0x1B {
		return "", state{}, false
	}
	switch {
	case s.mode != 2 && mode == 2:
		text = "\x0E" + text
	case s.mode == 2 && mode == 1:
		text = "\x0F" + text
	}
	if s.mode == 0 {
		text = header + text
	}
	return text, state{mode: mode}, true
}

func (kr) end(s state) (string, state) {
	if s.mode == 2 {
		return "\x0F", state{mode: 1}
	}
	return "", s
}

// encodings is each kind's.
var encodings = sync.OnceValue(func() map[int]encoding {
	big := func(size int, pairs bool) wide { return wide{order: binary.BigEndian, size: size, pairs: pairs} }
	little := func(size int, pairs bool) wide { return wide{order: binary.LittleEndian, size: size, pairs: pairs} }
	all := map[int]encoding{
		api.ASCII:     newSingle(append(counted(128), slices.Repeat([]rune{absent}, 128)...)),
		api.UTF8:      inUTF8{},
		api.UTF16BE:   big(2, true),
		api.UTF16LE:   little(2, true),
		api.UTF16:     marked{big: big(2, true), little: little(2, true)},
		api.UTF32BE:   big(4, false),
		api.UTF32LE:   little(4, false),
		api.UTF32:     marked{big: big(4, false), little: little(4, false)},
		api.UCS2BE:    big(2, false),
		api.UCS2LE:    little(2, false),
		api.UTF7:      inUTF7{},
		api.JIS0201:   half(),
		api.EUCJP:     inEUC{rows: rowsJIS(), halfs: true},
		api.EUCCN:     inEUC{rows: rowsGB()},
		api.EUCKR:     inEUC{rows: rowsKSC()},
		api.ShiftJIS:  newShiftJIS(),
		api.JOHAB:     newJOHAB(),
		api.HZ:        inHZ{},
		api.ISO2022JP: jp{},
		api.ISO2022KR: kr{},
	}
	for _, c := range chapterBytes {
		table := newSingle(append(counted(c.from), readList(c.list)...))
		all[c.kind] = table
		if c.kind == api.CP1258 {
			all[c.kind] = newVietnamese(table)
		}
	}
	return all
})

// candidates is what may stand in a scalar's place, the best first.
var candidates = sync.OnceValue(func() map[rune][]string {
	all := map[rune][]string{}
	for line := range strings.Lines(strings.TrimSpace(chapterTranslit)) {
		scalar, list, _ := strings.Cut(strings.TrimSpace(line), ": ")
		u := rune(whole(strings.TrimPrefix(scalar, "U+"), 16))
		for text := range strings.SplitSeq(list, "; ") {
			all[u] = append(all[u], string(readList(text)))
		}
	}
	for u := rune(0xFF01); u <= 0xFF5E; u++ {
		all[u] = []string{string(u - 0xFEE0)}
	}
	return all
})
