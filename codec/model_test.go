package codec_test

import (
	"dragoman/api"
	"dragoman/dos"
	"dragoman/ebcdic"
	"dragoman/euc"
	"dragoman/hz"
	"dragoman/iso"
	"dragoman/iso2022"
	"dragoman/jis"
	"dragoman/johab"
	"dragoman/sjis"
	"dragoman/translit"
	"dragoman/utf7"
	"dragoman/utf8"
	"dragoman/viet"
	"dragoman/wide"
	"dragoman/windows"
)

// layers says what the chapter says of each kind's own layer, by the numbers that chapter 23 lists.
var layers = [...]string{
	1: "ASCII", 2: "utf8",
	3: "wide", 4: "wide", 5: "wide, marked", 6: "wide", 7: "wide", 8: "wide, marked", 9: "wide", 10: "wide",
	11: "utf7",
	21: "iso", 22: "iso", 23: "iso", 24: "iso", 25: "iso", 26: "iso", 27: "iso", 28: "iso", 29: "iso", 30: "iso", 31: "iso",
	33: "iso", 34: "iso", 35: "iso", 36: "iso",
	40: "windows", 41: "windows",
	50: "windows", 51: "windows", 52: "windows", 53: "windows", 54: "windows", 55: "windows", 56: "windows", 57: "windows",
	58: "viet",
	60: "dos", 61: "dos", 62: "dos", 63: "dos", 64: "dos", 65: "dos", 66: "dos",
	70: "ebcdic", 71: "ebcdic", 72: "ebcdic",
	80: "JIS0201", 81: "euc", 82: "sjis", 83: "iso2022", 84: "euc", 85: "hz", 86: "euc", 87: "johab", 88: "iso2022",
}

// layerOf is the layer of a kind; nothing, if it is none.
func layerOf(kind int) string {
	if kind < 0 || kind >= len(layers) {
		return ""
	}
	return layers[kind]
}

// kinds is all kinds' numbers.
func kinds() []int {
	var all []int
	for kind, layer := range layers {
		if layer != "" {
			all = append(all, kind)
		}
	}
	return all
}

// letters is what windows-1258 may hold, as chapter 13 lists it.
const letters = "AEIOUYaeiouy\u00C2\u00CA\u00D4\u00E2\u00EA\u00F4\u0102\u0103\u01A0\u01A1\u01AF\u01B0"

// reads tells whether a state is one of a kind's, by the chapters.
func reads(kind int, s api.State) bool {
	modeAlone := s == api.State{Mode: s.Mode}
	switch layerOf(kind) {
	case "wide, marked", "iso2022":
		return modeAlone && 0 <= s.Mode && s.Mode <= 2
	case "hz":
		return modeAlone && 0 <= s.Mode && s.Mode <= 1
	case "viet":
		for _, u := range letters {
			if s == (api.State{Held: u}) {
				return true
			}
		}
		return s == api.State{}
	case "utf7":
		held := s.Held == 0 || 0xD800 <= s.Held && s.Held <= 0xDBFF
		within := s.Mode == 1 && 0 <= s.Bits && s.Bits <= 15 && held
		for n := range 16 {
			if within && s.Bits == n && s.Acc >= 1<<n {
				return false
			}
		}
		return within || s == api.State{} || s == api.State{Mode: 2}
	}
	return s == api.State{}
}

// writes tells whether a state is one of those in which a kind is written.
func writes(kind int, s api.State) bool {
	if layerOf(kind) == "utf7" && (s.Held != 0 || s.Bits >= 6 || s.Mode == 2) {
		return false
	}
	return reads(kind, s)
}

// The model of each call goes by the chapter's words, with the layers' own calls alone.

func modelGet(kind int, s api.State, b []byte) api.Got {
	if layerOf(kind) == "" {
		return api.Got{Err: api.ErrKind}
	}
	if !reads(kind, s) {
		return api.Got{Err: api.ErrState}
	}
	switch layerOf(kind) {
	case "utf8":
		return utf8.Get(b)
	case "wide", "wide, marked":
		return wide.Get(kind, s, b)
	case "utf7":
		return utf7.Get(s, b)
	case "viet":
		return viet.Get(s, b)
	case "euc":
		return euc.Get(kind, b)
	case "sjis":
		return sjis.Get(b)
	case "johab":
		return johab.Get(b)
	case "hz":
		return hz.Get(s, b)
	case "iso2022":
		return iso2022.Get(kind, s, b)
	}
	if len(b) == 0 {
		return api.Got{Err: api.More}
	}
	if u, ok := modelScalar(kind, b[0]); ok {
		return api.Got{N: 1, K: 1, A: u}
	}
	return api.Got{Err: api.Illegal, N: 1}
}

// modelScalar is what a byte stands for, of the kinds in which bytes stand for scalars.
func modelScalar(kind int, c byte) (rune, bool) {
	switch layerOf(kind) {
	case "ASCII":
		return rune(c), c <= 0x7F
	case "JIS0201":
		return jis.Half(c)
	case "iso":
		return iso.Scalar(kind, c)
	case "windows":
		return windows.Scalar(kind, c)
	case "dos":
		return dos.Scalar(kind, c)
	case "ebcdic":
		return ebcdic.Scalar(kind, c)
	}
	panic("no bytes that stand for scalars")
}

func modelSet(kind int, s api.State, u rune) api.Put {
	if layerOf(kind) == "" {
		return api.Put{Err: api.ErrKind}
	}
	if !writes(kind, s) {
		return api.Put{Err: api.ErrState}
	}
	switch layerOf(kind) {
	case "utf8":
		return utf8.Set(u)
	case "wide", "wide, marked":
		return wide.Set(kind, s, u)
	case "utf7":
		return utf7.Set(s, u)
	case "viet":
		return viet.Set(u)
	case "euc":
		return euc.Set(kind, u)
	case "sjis":
		return sjis.Set(u)
	case "johab":
		return johab.Set(u)
	case "hz":
		return hz.Set(s, u)
	case "iso2022":
		return iso2022.Set(kind, s, u)
	}
	if c, ok := modelByte(kind, u); ok {
		return api.Put{Bytes: string([]byte{c})}
	}
	return api.Put{Err: api.None}
}

// modelByte is what stands for a scalar, of the kinds in which bytes do.
func modelByte(kind int, u rune) (byte, bool) {
	switch layerOf(kind) {
	case "ASCII":
		return byte(u), 0 <= u && u <= 0x7F
	case "JIS0201":
		return jis.HalfByte(u)
	case "iso":
		return iso.Byte(kind, u)
	case "windows":
		return windows.Byte(kind, u)
	case "dos":
		return dos.Byte(kind, u)
	case "ebcdic":
		return ebcdic.Byte(kind, u)
	}
	panic("no bytes that stand for scalars")
}

// ended is all that End answers.
type ended struct {
	last string
	s    api.State
	err  api.Errno
}

func modelEnd(kind int, s api.State) ended {
	if layerOf(kind) == "" {
		return ended{err: api.ErrKind}
	}
	if !writes(kind, s) {
		return ended{err: api.ErrState}
	}
	switch layerOf(kind) {
	case "utf7":
		last, err := utf7.End(s)
		return ended{last: last, err: err}
	case "hz":
		last, err := hz.End(s)
		return ended{last: last, err: err}
	case "iso2022":
		last, behind, err := iso2022.End(kind, s)
		return ended{last, behind, err}
	case "wide, marked":
		return ended{s: s}
	}
	return ended{}
}

func modelDrain(kind int, s api.State) (rune, bool) {
	if layerOf(kind) == "viet" {
		return viet.Drain(s)
	}
	return 0, false
}

func modelWrite(kind int, s api.State, l []rune) api.Put {
	if e := modelEnd(kind, s); e.err != api.OK {
		return api.Put{Err: e.err}
	}
	all := ""
	for _, u := range l {
		p := modelSet(kind, s, u)
		if p.Err != api.OK {
			return api.Put{Err: p.Err}
		}
		all, s = all+p.Bytes, p.S
	}
	return api.Put{Bytes: all, S: s}
}

func modelTrans(kind int, s api.State, u rune) (api.Put, bool) {
	if p := modelSet(kind, s, u); p.Err != api.None {
		return p, false
	}
	for _, text := range translit.Candidates(u) {
		if p := modelWrite(kind, s, []rune(text)); p.Err == api.OK {
			return p, true
		}
	}
	return api.Put{Err: api.None}, false
}

func modelDecode(kind int, b []byte) ([]rune, api.Errno) {
	if layerOf(kind) == "" {
		return nil, api.ErrKind
	}
	var s api.State
	var all []rune
	for len(b) > 0 {
		g := modelGet(kind, s, b)
		if g.Err != api.OK {
			return nil, g.Err
		}
		if g.K >= 1 {
			all = append(all, g.A)
		}
		if g.K >= 2 {
			all = append(all, g.B)
		}
		b, s = b[g.N:], g.S
	}
	if u, ok := modelDrain(kind, s); ok {
		all = append(all, u)
	}
	return all, api.OK
}

func modelEncode(kind int, l []rune) ([]byte, api.Errno) {
	p := modelWrite(kind, api.State{}, l)
	if p.Err != api.OK {
		return nil, p.Err
	}
	e := modelEnd(kind, p.S)
	return []byte(p.Bytes + e.last), e.err
}
