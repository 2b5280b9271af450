package codec

import (
	"dragoman/api"
	"dragoman/dos"
	"dragoman/ebcdic"
	"dragoman/euc"
	"dragoman/hz"
	"dragoman/iso"
	"dragoman/iso2022"
	"dragoman/jis"
	"dragoman/johab"
	"dragoman/sjis"
	"dragoman/utf7"
	"dragoman/utf8"
	"dragoman/viet"
	"dragoman/wide"
	"dragoman/windows"
)

// family is the face under which a kind's own layer is known.
type family interface {
	// refuses tells whether a state is wrong where the own layer itself would not say so.
	refuses(s api.State) bool
	get(s api.State, b []byte) api.Got
	set(s api.State, u rune) api.Put
	end(s api.State) (string, api.State, api.Errno)
	drain(s api.State) (rune, bool)
}

// familyOf is the family of a kind, as the chapter gives each kind its own layer; false, if it is no kind.
func familyOf(kind int) (family, bool) {
	switch kind {
	case api.ASCII:
		return asciiFamily{}, true
	case api.UTF8:
		return utf8Family{}, true
	case api.UTF16BE, api.UTF16LE, api.UTF16, api.UTF32BE, api.UTF32LE, api.UTF32, api.UCS2BE, api.UCS2LE:
		return wideFamily{kind: kind}, true
	case api.UTF7:
		return utf7Family{}, true
	case api.ISO1, api.ISO2, api.ISO3, api.ISO4, api.ISO5, api.ISO6, api.ISO7, api.ISO8,
		api.ISO9, api.ISO10, api.ISO11, api.ISO13, api.ISO14, api.ISO15, api.ISO16:
		return isoFamily{kind: kind}, true
	case api.KOI8R, api.KOI8U, api.CP1250, api.CP1251, api.CP1252, api.CP1253, api.CP1254, api.CP1255, api.CP1256, api.CP1257:
		return windowsFamily{kind: kind}, true
	case api.CP1258:
		return vietFamily{}, true
	case api.CP437, api.CP850, api.CP852, api.CP855, api.CP866, api.MacRoman, api.MacCyr:
		return dosFamily{kind: kind}, true
	case api.CP037, api.CP500, api.CP1026:
		return ebcdicFamily{kind: kind}, true
	case api.JIS0201:
		return halfFamily{}, true
	case api.EUCJP, api.EUCCN, api.EUCKR:
		return eucFamily{kind: kind}, true
	case api.ShiftJIS:
		return sjisFamily{}, true
	case api.JOHAB:
		return johabFamily{}, true
	case api.HZ:
		return hzFamily{}, true
	case api.ISO2022JP, api.ISO2022KR:
		return iso2022Family{kind: kind}, true
	}
	return nil, false
}

// familyIn is the family of a kind, for a state that is not refused.
func familyIn(kind int, s api.State) (family, api.Errno) {
	f, ok := familyOf(kind)
	if !ok {
		return nil, api.ErrKind
	}
	if f.refuses(s) {
		return nil, api.ErrState
	}
	return f, api.OK
}

// holdsNothing is what the families have in common that never keep a scalar back.
type holdsNothing struct{}

func (holdsNothing) drain(s api.State) (rune, bool) { return 0, false }

// stateless is what the families have in common whose chapters give no state.
type stateless struct{ holdsNothing }

func (stateless) refuses(s api.State) bool { return s != api.State{} }

func (stateless) end(s api.State) (string, api.State, api.Errno) { return "", api.State{}, api.OK }

// stateful is what the families have in common whose own layers refuse a state themselves.
type stateful struct{ holdsNothing }

func (stateful) refuses(s api.State) bool { return false }

type asciiFamily struct{ stateless }

func (asciiFamily) get(s api.State, b []byte) api.Got { return getByte(b, asciiScalar) }
func (asciiFamily) set(s api.State, u rune) api.Put   { return setByte(u, asciiByte) }

type halfFamily struct{ stateless }

func (halfFamily) get(s api.State, b []byte) api.Got { return getByte(b, jis.Half) }
func (halfFamily) set(s api.State, u rune) api.Put   { return setByte(u, jis.HalfByte) }

type isoFamily struct {
	stateless
	kind int
}

func (f isoFamily) get(s api.State, b []byte) api.Got {
	return getByte(b, func(c byte) (rune, bool) { return iso.Scalar(f.kind, c) })
}

func (f isoFamily) set(s api.State, u rune) api.Put {
	return setByte(u, func(u rune) (byte, bool) { return iso.Byte(f.kind, u) })
}

type windowsFamily struct {
	stateless
	kind int
}

func (f windowsFamily) get(s api.State, b []byte) api.Got {
	return getByte(b, func(c byte) (rune, bool) { return windows.Scalar(f.kind, c) })
}

func (f windowsFamily) set(s api.State, u rune) api.Put {
	return setByte(u, func(u rune) (byte, bool) { return windows.Byte(f.kind, u) })
}

type dosFamily struct {
	stateless
	kind int
}

func (f dosFamily) get(s api.State, b []byte) api.Got {
	return getByte(b, func(c byte) (rune, bool) { return dos.Scalar(f.kind, c) })
}

func (f dosFamily) set(s api.State, u rune) api.Put {
	return setByte(u, func(u rune) (byte, bool) { return dos.Byte(f.kind, u) })
}

type ebcdicFamily struct {
	stateless
	kind int
}

func (f ebcdicFamily) get(s api.State, b []byte) api.Got {
	return getByte(b, func(c byte) (rune, bool) { return ebcdic.Scalar(f.kind, c) })
}

func (f ebcdicFamily) set(s api.State, u rune) api.Put {
	return setByte(u, func(u rune) (byte, bool) { return ebcdic.Byte(f.kind, u) })
}

type utf8Family struct{ stateless }

func (utf8Family) get(s api.State, b []byte) api.Got { return utf8.Get(b) }
func (utf8Family) set(s api.State, u rune) api.Put   { return utf8.Set(u) }

type eucFamily struct {
	stateless
	kind int
}

func (f eucFamily) get(s api.State, b []byte) api.Got { return euc.Get(f.kind, b) }
func (f eucFamily) set(s api.State, u rune) api.Put   { return euc.Set(f.kind, u) }

type sjisFamily struct{ stateless }

func (sjisFamily) get(s api.State, b []byte) api.Got { return sjis.Get(b) }
func (sjisFamily) set(s api.State, u rune) api.Put   { return sjis.Set(u) }

type johabFamily struct{ stateless }

func (johabFamily) get(s api.State, b []byte) api.Got { return johab.Get(b) }
func (johabFamily) set(s api.State, u rune) api.Put   { return johab.Set(u) }

type wideFamily struct {
	stateful
	kind int
}

func (f wideFamily) get(s api.State, b []byte) api.Got { return wide.Get(f.kind, s, b) }
func (f wideFamily) set(s api.State, u rune) api.Put   { return wide.Set(f.kind, s, u) }

// The order of bytes that was told holds on; the kinds that are told none have the zero state alone.
func (f wideFamily) end(s api.State) (string, api.State, api.Errno) {
	// wide has no End that would refuse a state, and every kind of it has a place for 0.
	if p := wide.Set(f.kind, s, 0); p.Err != api.OK {
		return "", api.State{}, p.Err
	}
	return "", s, api.OK
}

type utf7Family struct{ stateful }

func (utf7Family) get(s api.State, b []byte) api.Got { return utf7.Get(s, b) }
func (utf7Family) set(s api.State, u rune) api.Put   { return utf7.Set(s, u) }

func (utf7Family) end(s api.State) (string, api.State, api.Errno) {
	last, err := utf7.End(s)
	return last, api.State{}, err
}

type hzFamily struct{ stateful }

func (hzFamily) get(s api.State, b []byte) api.Got { return hz.Get(s, b) }
func (hzFamily) set(s api.State, u rune) api.Put   { return hz.Set(s, u) }

func (hzFamily) end(s api.State) (string, api.State, api.Errno) {
	last, err := hz.End(s)
	return last, api.State{}, err
}

type iso2022Family struct {
	stateful
	kind int
}

func (f iso2022Family) get(s api.State, b []byte) api.Got { return iso2022.Get(f.kind, s, b) }
func (f iso2022Family) set(s api.State, u rune) api.Put   { return iso2022.Set(f.kind, s, u) }

func (f iso2022Family) end(s api.State) (string, api.State, api.Errno) {
	return iso2022.End(f.kind, s)
}

type vietFamily struct{}

// What writes asks for no state, so that it cannot refuse one.
func (vietFamily) refuses(s api.State) bool { return !viet.Fits(s) }

func (vietFamily) get(s api.State, b []byte) api.Got { return viet.Get(s, b) }
func (vietFamily) set(s api.State, u rune) api.Put   { return viet.Set(u) }
func (vietFamily) drain(s api.State) (rune, bool)    { return viet.Drain(s) }
func (vietFamily) end(s api.State) (string, api.State, api.Errno) {
	return "", api.State{}, api.OK
}

// getByte is the step of bytes that stand for scalars.
func getByte(b []byte, scalar func(c byte) (rune, bool)) api.Got {
	if len(b) == 0 {
		return api.Got{Err: api.More}
	}
	u, ok := scalar(b[0])
	if !ok {
		return api.Got{Err: api.Illegal, N: 1}
	}
	return api.Got{N: 1, K: 1, A: u}
}

// setByte is what is put out where bytes stand for scalars.
func setByte(u rune, byteOf func(u rune) (byte, bool)) api.Put {
	c, ok := byteOf(u)
	if !ok {
		return api.Put{Err: api.None}
	}
	return api.Put{Bytes: string([]byte{c})}
}

// allASCII is how many bytes of ASCII stand for something: each for the scalar of the same number.
const allASCII = 0x80

func asciiScalar(c byte) (rune, bool) {
	if c >= allASCII {
		return 0, false
	}
	return rune(c), true
}

func asciiByte(u rune) (byte, bool) {
	if u < 0 || u >= allASCII {
		return 0, false
	}
	return byte(u), true
}
