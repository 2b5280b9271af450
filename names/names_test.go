package names_test

import (
	"errors"
	"fmt"
	"maps"
	"math"
	"math/rand/v2"
	"slices"
	"strconv"
	"strings"
	"testing"

	"dragoman/api"
	"dragoman/names"
)

// chapterList is the document's list, letter by letter.
const chapterList = `
| ASCII | 1 | ASCII, US-ASCII, ISO646-US, ANSI_X3.4-1968, 646 |
| UTF8 | 2 | UTF-8, UTF8 |
| UTF16BE | 3 | UTF-16BE |
| UTF16LE | 4 | UTF-16LE |
| UTF16 | 5 | UTF-16 |
| UTF32BE | 6 | UTF-32BE, UCS-4BE |
| UTF32LE | 7 | UTF-32LE, UCS-4LE |
| UTF32 | 8 | UTF-32, UCS-4 |
| UCS2BE | 9 | UCS-2BE, UNICODEBIG |
| UCS2LE | 10 | UCS-2LE, UNICODELITTLE |
| UTF7 | 11 | UTF-7, UNICODE-1-1-UTF-7 |
| ISO1 | 21 | ISO-8859-1, ISO8859-1, LATIN1 |
| ISO2 | 22 | ISO-8859-2, ISO8859-2, LATIN2 |
| ISO3 | 23 | ISO-8859-3, ISO8859-3, LATIN3 |
| ISO4 | 24 | ISO-8859-4, ISO8859-4, LATIN4 |
| ISO5 | 25 | ISO-8859-5, ISO8859-5, CYRILLIC |
| ISO6 | 26 | ISO-8859-6, ISO8859-6, ARABIC |
| ISO7 | 27 | ISO-8859-7, ISO8859-7, GREEK |
| ISO8 | 28 | ISO-8859-8, ISO8859-8, HEBREW |
| ISO9 | 29 | ISO-8859-9, ISO8859-9, LATIN5 |
| ISO10 | 30 | ISO-8859-10, ISO8859-10, LATIN6 |
| ISO11 | 31 | ISO-8859-11, ISO8859-11, THAI |
| ISO13 | 33 | ISO-8859-13, ISO8859-13, LATIN7 |
| ISO14 | 34 | ISO-8859-14, ISO8859-14, LATIN8 |
| ISO15 | 35 | ISO-8859-15, ISO8859-15, LATIN-9 |
| ISO16 | 36 | ISO-8859-16, ISO8859-16, LATIN10 |
| KOI8R | 40 | KOI8-R |
| KOI8U | 41 | KOI8-U |
| CP1250 | 50 | WINDOWS-1250, CP1250 |
| CP1251 | 51 | WINDOWS-1251, CP1251 |
| CP1252 | 52 | WINDOWS-1252, CP1252 |
| CP1253 | 53 | WINDOWS-1253, CP1253 |
| CP1254 | 54 | WINDOWS-1254, CP1254 |
| CP1255 | 55 | WINDOWS-1255, CP1255 |
| CP1256 | 56 | WINDOWS-1256, CP1256 |
| CP1257 | 57 | WINDOWS-1257, CP1257 |
| CP1258 | 58 | WINDOWS-1258, CP1258 |
| CP437 | 60 | IBM437, CP437, 437 |
| CP850 | 61 | IBM850, CP850, 850 |
| CP852 | 62 | IBM852, CP852, 852 |
| CP855 | 63 | IBM855, CP855, 855 |
| CP866 | 64 | IBM866, CP866, 866 |
| MacRoman | 65 | MACINTOSH, MACROMAN, MAC |
| MacCyr | 66 | MACCYRILLIC |
| CP037 | 70 | IBM037, CP037, EBCDIC-CP-US |
| CP500 | 71 | IBM500, CP500, EBCDIC-CP-BE |
| CP1026 | 72 | IBM1026, CP1026 |
| JIS0201 | 80 | JIS_X0201, JISX0201-1976, X0201 |
| EUCJP | 81 | EUC-JP, EUCJP |
| ShiftJIS | 82 | SHIFT_JIS, SHIFT-JIS, SJIS, MS_KANJI |
| ISO2022JP | 83 | ISO-2022-JP |
| EUCCN | 84 | EUC-CN, EUCCN, GB2312, CN-GB |
| HZ | 85 | HZ, HZ-GB-2312 |
| EUCKR | 86 | EUC-KR, EUCKR |
| JOHAB | 87 | JOHAB, CP1361 |
| ISO2022KR | 88 | ISO-2022-KR |
`

// How many kinds and names the chapter's list has.
const (
	listedKinds = 56
	listedNames = 135
)

// model is the kinds and their names by the document, apart from the program.
type model struct {
	names  map[int][]string
	byName map[string]int // names in large letters
}

// readLine is the number of a line of the list, and its names.
func readLine(line string) (int, []string, error) {
	cells := strings.Split(strings.Trim(line, "|"), "|")
	if len(cells) != 3 {
		return 0, nil, fmt.Errorf("%q is no line of the list", line)
	}
	kind, err := strconv.Atoi(strings.TrimSpace(cells[1]))
	return kind, strings.Split(strings.TrimSpace(cells[2]), ", "), err
}

func newModel(t *testing.T) model {
	t.Helper()
	m := model{map[int][]string{}, map[string]int{}}
	for _, line := range strings.Split(strings.TrimSpace(chapterList), "\n") {
		kind, l, err := readLine(line)
		if err != nil || m.names[kind] != nil {
			t.Fatalf("%s: %v, %q before", line, err, m.names[kind])
		}
		m.names[kind] = l
		for _, name := range l {
			m.byName[name] = kind
		}
	}
	if len(m.names) != listedKinds || len(m.byName) != listedNames {
		t.Fatalf("%d kinds, %d names", len(m.names), len(m.byName))
	}
	return m
}

// rising is the kinds of the model, from the least on.
func (m model) rising() []int { return slices.Sorted(maps.Keys(m.names)) }

// all is the names of the model, kind by kind.
func (m model) all() []string {
	var l []string
	for _, kind := range m.rising() {
		l = append(l, m.names[kind]...)
	}
	return l
}

// name is the first name by the document, or nothing.
func (m model) name(kind int) string {
	if l := m.names[kind]; l != nil {
		return l[0]
	}
	return ""
}

// lookupText is what Lookup answers of a text by the document.
func (m model) lookupText(s string) (int, api.Errno) {
	if kind, ok := m.byName[upper(s)]; ok {
		return kind, api.OK
	}
	return 0, api.ErrName
}

// lookupInt is what Lookup answers of an int by the document.
func (m model) lookupInt(n int) (int, api.Errno) {
	if m.names[n] != nil {
		return n, api.OK
	}
	return 0, api.ErrKind
}

// parse is what Parse answers by the document.
func (m model) parse(s string) (names.Wish, api.Errno) {
	if len(s) > 64 {
		return names.Wish{}, api.ErrLong
	}
	return m.join(apart(s))
}

// join is what parts come to.
func (m model) join(parts []string) (names.Wish, api.Errno) {
	kind, e := m.lookupText(parts[0])
	if e != api.OK {
		return names.Wish{}, api.ErrName
	}
	w := names.Wish{Kind: kind}
	for _, part := range parts[1:] {
		switch upper(part) {
		case "TRANSLIT":
			w.Translit = true
		case "IGNORE":
			w.Ignore = true
		case "":
		default:
			return names.Wish{}, api.ErrField
		}
	}
	return w, api.OK
}

// print is what Print answers by the document.
func (m model) print(w names.Wish) string {
	s := m.name(w.Kind)
	if s != "" && w.Translit {
		s += "//TRANSLIT"
	}
	if s != "" && w.Ignore {
		s += "//IGNORE"
	}
	return s
}

// apart takes a text apart byte by byte: a / with another one behind it ends a part, and both are gone.
func apart(s string) []string {
	parts := []string{""}
	for i := 0; i < len(s); i++ {
		if s[i] == '/' && i+1 < len(s) && s[i+1] == '/' {
			parts = append(parts, "")
			i++
		} else {
			parts[len(parts)-1] += s[i : i+1]
		}
	}
	return parts
}

const smalls, larges = "abcdefghijklmnopqrstuvwxyz", "ABCDEFGHIJKLMNOPQRSTUVWXYZ"

// swap puts the byte at its place in one text for each byte of the other, and leaves all else as it is.
func swap(s, from, to string) string {
	b := []byte(s)
	for i, c := range b {
		if at := strings.IndexByte(from, c); at >= 0 {
			b[i] = to[at]
		}
	}
	return string(b)
}

func upper(s string) string { return swap(s, smalls, larges) }

func lower(s string) string { return swap(s, larges, smalls) }

// mixed is a text with every second byte small, if it is a letter, from the first or the second one on.
func mixed(s string, from int) string {
	b := []byte(upper(s))
	for i := from; i < len(b); i += 2 {
		b[i] = lower(string(b[i : i+1]))[0]
	}
	return string(b)
}

// writings is all ways to write a text in large and small letters.
func writings(s string) []string {
	l := []string{""}
	for i := range len(s) {
		c := s[i : i+1]
		var next []string
		for _, head := range l {
			next = append(next, head+upper(c))
			if lower(c) != upper(c) {
				next = append(next, head+lower(c))
			}
		}
		l = next
	}
	return l
}

// numbers is all ints from far below 0 to far above 88, and farther ones, of which some become a kind, if bits or a sign are lost.
func numbers(yield func(n int) bool) {
	for n := -70000; n <= 70000; n++ {
		if !yield(n) {
			return
		}
	}
	far := []int{math.MinInt, math.MinInt + 1, math.MinInt32, math.MinInt32 - 1, math.MaxInt32, math.MaxInt32 + 1, math.MaxUint32, math.MaxUint32 + 1, math.MaxInt - 1, math.MaxInt}
	for kind := range 100 {
		for _, shift := range []int{17, 24, 31, 32, 33, 48, 62, 63} {
			far = append(far, kind+1<<shift, kind-1<<shift, -kind-1<<shift, kind<<shift)
		}
	}
	for _, n := range far {
		if (n < -70000 || n > 70000) && !yield(n) {
			return
		}
	}
}

// choices is the four wishes of a kind.
func choices(kind int) []names.Wish {
	return []names.Wish{{Kind: kind}, {Kind: kind, Translit: true}, {Kind: kind, Ignore: true}, {Kind: kind, Translit: true, Ignore: true}}
}

func checkLookup(t *testing.T, key any, kind int, e api.Errno) {
	if got, gotE := names.Lookup(key); got != kind || gotE != e {
		t.Helper()
		t.Fatalf("Lookup(%T %.80q) = %d, %d, want %d, %d", key, fmt.Sprint(key), got, gotE, kind, e)
	}
}

// checkText holds Lookup of a text against the document.
func (m model) checkText(t *testing.T, s string) {
	kind, e := m.lookupText(s)
	if got, gotE := names.Lookup(s); got != kind || gotE != e {
		t.Helper()
		t.Fatalf("Lookup(%.80q) = %d, %d, want %d, %d", s, got, gotE, kind, e)
	}
}

func checkParse(t *testing.T, s string, w names.Wish, e api.Errno) {
	if got, gotE := names.Parse(s); got != w || gotE != e {
		t.Helper()
		t.Fatalf("Parse(%.80q) = %+v, %d, want %+v, %d", s, got, gotE, w, e)
	}
}

// checkWhole holds Parse of a text against the document.
func (m model) checkWhole(t *testing.T, s string) {
	w, e := m.parse(s)
	if got, gotE := names.Parse(s); got != w || gotE != e {
		t.Helper()
		t.Fatalf("Parse(%.80q) = %+v, %d, want %+v, %d", s, got, gotE, w, e)
	}
}

// TestModel: the lines are read as they stand, each name is in large letters, and the kinds are api's.
func TestModel(t *testing.T) {
	m := newModel(t)
	for i, line := range strings.Split(strings.TrimSpace(chapterList), "\n") {
		kind := m.rising()[i]
		if want := fmt.Sprintf(" | %d | %s |", kind, strings.Join(m.names[kind], ", ")); !strings.HasSuffix(line, want) {
			t.Errorf("%s is read as %s", line, want)
		}
	}
	for _, name := range m.all() {
		if name != strings.ToUpper(name) || name != upper(name) || name == "" || strings.Contains(name, "/") {
			t.Errorf("the name %q", name)
		}
	}
	if kind := m.rising(); kind[0] != api.ASCII || kind[len(kind)-1] != api.MostKind || api.MaxName != 64 {
		t.Errorf("kinds from %d to %d, MaxName %d", kind[0], kind[len(kind)-1], api.MaxName)
	}
	for s, want := range map[string][]string{"": {""}, "/": {"/"}, "//": {"", ""}, "///": {"", "/"}, "////": {"", "", ""}, "a///b": {"a", "/b"}, "a/b//c/": {"a/b", "c/"}, "a/////": {"a", "", "/"}} {
		if got := apart(s); !slices.Equal(got, want) {
			t.Errorf("%q is taken apart to %q", s, got)
		}
	}
}

// TestExamples: the chapter's.
func TestExamples(t *testing.T) {
	checkLookup(t, "latin1", 21, api.OK)
	checkLookup(t, 2, 2, api.OK)
	checkLookup(t, 3.5, 0, api.ErrField)
	checkLookup(t, 12, 0, api.ErrKind)
	checkLookup(t, "utf", 0, api.ErrName)
	checkParse(t, "utf-8//translit//IGNORE", names.Wish{Kind: 2, Translit: true, Ignore: true}, api.OK)
	checkParse(t, "utf-8//x", names.Wish{}, api.ErrField)
	checkParse(t, "//TRANSLIT", names.Wish{}, api.ErrName)
}

// Promise 23.1: names of kinds.

// TestNamesByEye: some kinds, written out.
func TestNamesByEye(t *testing.T) {
	for kind, want := range map[int][]string{
		api.ASCII: {"ASCII", "US-ASCII", "ISO646-US", "ANSI_X3.4-1968", "646"}, api.UTF8: {"UTF-8", "UTF8"}, api.UTF16: {"UTF-16"}, api.UTF7: {"UTF-7", "UNICODE-1-1-UTF-7"},
		api.ISO9: {"ISO-8859-9", "ISO8859-9", "LATIN5"}, api.ISO15: {"ISO-8859-15", "ISO8859-15", "LATIN-9"}, api.KOI8U: {"KOI8-U"}, api.CP1258: {"WINDOWS-1258", "CP1258"}, api.CP866: {"IBM866", "CP866", "866"},
		api.MacRoman: {"MACINTOSH", "MACROMAN", "MAC"}, api.CP037: {"IBM037", "CP037", "EBCDIC-CP-US"}, api.ShiftJIS: {"SHIFT_JIS", "SHIFT-JIS", "SJIS", "MS_KANJI"}, api.EUCCN: {"EUC-CN", "EUCCN", "GB2312", "CN-GB"}, api.ISO2022KR: {"ISO-2022-KR"},
	} {
		if got := names.Aliases(kind); !slices.Equal(got, want) || names.Name(kind) != want[0] {
			t.Errorf("kind %d: %q, %q, want %q", kind, names.Name(kind), got, want)
		}
	}
}

// TestNamesNone: numbers that are no kinds, beside and between them, written out.
func TestNamesNone(t *testing.T) {
	for _, kind := range []int{math.MinInt, -88, -21, -2, -1, 0, 12, 13, 14, 15, 16, 17, 18, 19, 20, 32, 37, 38, 39, 42, 43, 44, 45, 46, 47, 48, 49, 59, 67, 68, 69, 73, 74, 75, 76, 77, 78, 79, 89, 90, 257, 437, 646, 850, 1252, 65537, math.MaxInt} {
		if name, l := names.Name(kind), names.Aliases(kind); name != "" || len(l) != 0 {
			t.Errorf("%d is no kind: %q, %q", kind, name, l)
		}
	}
}

// TestNamesEvery: all numbers.
func TestNamesEvery(t *testing.T) {
	m := newModel(t)
	n := 0
	for kind := range numbers {
		name, l := names.Name(kind), names.Aliases(kind)
		if name != m.name(kind) || !slices.Equal(l, m.names[kind]) {
			t.Fatalf("%d: %q, %q, want %q", kind, name, l, m.names[kind])
		}
		if len(l) > 0 {
			n++
		}
	}
	if n != listedKinds {
		t.Errorf("%d numbers have names", n)
	}
}

// TestKinds: all of them, rising, none twice, and no other.
func TestKinds(t *testing.T) {
	kinds := names.Kinds()
	if want := newModel(t).rising(); !slices.Equal(kinds, want) {
		t.Errorf("Kinds() = %d, want %d", kinds, want)
	}
	for i := 1; i < len(kinds); i++ {
		if kinds[i-1] >= kinds[i] {
			t.Errorf("%d is ahead of %d", kinds[i-1], kinds[i])
		}
	}
	var some []int
	for n := range numbers {
		if len(names.Aliases(n)) > 0 {
			some = append(some, n)
		}
	}
	if !slices.Equal(kinds, some) {
		t.Errorf("Kinds() = %d, but %d have names", kinds, some)
	}
}

// spoil writes over a list, and over the spare room behind its end.
func spoil[T any](l []T, with T) {
	whole := l[:cap(l)]
	for i := range whole {
		whole[i] = with
	}
}

// TestNewMemory: what is answered is the caller's, with its spare room, and no two answers share any.
func TestNewMemory(t *testing.T) {
	m := newModel(t)
	for _, kind := range m.rising() {
		a, b := names.Aliases(kind), names.Aliases(kind)
		spoil(a, "spoiled")
		if !slices.Equal(b, m.names[kind]) || !slices.Equal(names.Aliases(kind), m.names[kind]) {
			t.Fatalf("names of %d became %q, then %q", kind, b, names.Aliases(kind))
		}
	}
	a, b := names.Kinds(), names.Kinds()
	spoil(a, 7)
	if !slices.Equal(b, m.rising()) || !slices.Equal(names.Kinds(), m.rising()) {
		t.Fatalf("Kinds() became %d, then %d", b, names.Kinds())
	}
	checkLookup(t, "spoiled", 0, api.ErrName)
	for _, kind := range m.rising() {
		checkLookup(t, kind, kind, api.OK)
		for _, name := range m.names[kind] {
			checkLookup(t, name, kind, api.OK)
			checkParse(t, name, names.Wish{Kind: kind}, api.OK)
		}
		for _, w := range choices(kind) {
			if got := names.Print(w); got != m.print(w) {
				t.Fatalf("Print(%+v) = %q", w, got)
			}
		}
	}
}

// Promise 23.2: kinds of keys.

// TestLookupWritings: each name in all ways to write it, as it stands, in small letters and mixed among them.
func TestLookupWritings(t *testing.T) {
	m := newModel(t)
	for _, name := range m.all() {
		l := writings(name)
		for _, s := range []string{name, lower(name), mixed(name, 0), mixed(name, 1)} {
			if !slices.Contains(l, s) {
				t.Fatalf("%q is no writing of %q", s, name)
			}
		}
		for _, s := range l {
			checkLookup(t, s, m.byName[name], api.OK)
		}
	}
}

// TestLookupMore: each name with one byte more, of any sort, in each place.
func TestLookupMore(t *testing.T) {
	m := newModel(t)
	for _, name := range m.all() {
		for at := range len(name) + 1 {
			for b := range 256 {
				m.checkText(t, name[:at]+string([]byte{byte(b)})+name[at:])
			}
		}
	}
}

// TestLookupLess: each name with one byte less, in each place, and each piece of it.
func TestLookupLess(t *testing.T) {
	m := newModel(t)
	for _, name := range m.all() {
		for _, s := range []string{name, lower(name)} {
			for at := range len(s) {
				m.checkText(t, s[:at]+s[at+1:])
				for end := at; end <= len(s); end++ {
					m.checkText(t, s[at:end])
				}
			}
		}
	}
}

// TestLookupOther: each name with another byte, of any sort, in each place.
func TestLookupOther(t *testing.T) {
	m := newModel(t)
	for _, name := range m.all() {
		for at := range len(name) {
			for b := range 256 {
				m.checkText(t, name[:at]+string([]byte{byte(b)})+name[at+1:])
			}
		}
	}
}

// TestLookupShifted: no signs but letters are taken as those that are 20 (hexadecimal) away, nor bytes as those without their highest bit.
func TestLookupShifted(t *testing.T) {
	m := newModel(t)
	for _, name := range m.all() {
		for at := range len(name) {
			for _, bit := range []byte{0x80, 0x40, 0x20, 0x10, 0x08, 0x04, 0x02, 0x01} {
				b := []byte(name)
				b[at] ^= bit
				m.checkText(t, string(b))
				for i := range b {
					b[i] = name[i] ^ bit
				}
				m.checkText(t, string(b))
			}
		}
	}
	for _, s := range []string{"utf\r8", "UTF\r8", "shift\x7Fjis", "SHIFT\x7FJIS", "ANSI\x7FX3.4-1968", "ansi_x3\x0E4-1968", "\x16\x14\x16", "VTV", "vtv", "tsw", "\xD5TF-8", "UTF-\xB8"} {
		checkLookup(t, s, 0, api.ErrName)
	}
}

// noNames is texts that are no names.
func noNames() []string {
	return []string{
		"", " ", "\x00", "\t", "\n", "-", "_", ".", "//", "/", "A", "U", "utf", "UTF", "UTF-", "UTF_8", "UTF 8", "UTF--8", "UTF-08", "UTF-9", "UTF-81", "UTF16", "UTF16BE", "UTF-16 BE", "UTF-16B", "UTF-1", "UTF32", "UTF7", "UCS-2", "UCS2", "UCS-16", "UCS4", "UNICODE", "UNICODEBI", "UNICODE-1-1",
		"ISO", "ISO-8859", "ISO-8859-", "ISO-8859-0", "ISO-8859-01", "ISO-8859-12", "ISO8859-12", "ISO-8859-17", "ISO_8859-1", "ISO88591", "8859-1", "LATIN", "LATIN0", "LATIN9", "LATIN-1", "LATIN-10", "LATIN11", "KOI8", "KOI8R", "KOI8-RU", "WINDOWS-1249", "WINDOWS-1259", "WINDOWS1252", "CP", "CP1249", "CP1259", "1252", "CP437X", "IBM 437", "IBM-437", "0437", "+437", "437.0", "037", "37", "CP37", "500", "1026", "CP1360", "CP932", "CP936",
		"MACCYR", "MAC-CYRILLIC", "MACGREEK", "EBCDIC", "EBCDIC-CP", "EBCDIC-CP-DE", "IBM1252", "JIS", "JIS_X0208", "JISX0201", "0201", "EUC", "EUC_JP", "EUC-TW", "SHIFTJIS", "SHIFT JIS", "MS-KANJI", "ISO2022JP", "ISO-2022", "ISO-2022-CN", "GB-2312", "GB2312-80", "GBK", "HZ-GB", "HZGB2312", "KSC", "JOHAB ", "TRANSLIT", "IGNORE", "UTF-8//", "UTF-8//TRANSLIT", "1", "2", "21", "88",
		" UTF-8", "UTF-8 ", "UTF-8\n", "UTF-8\x00", "\x00UTF-8", "\tASCII", "ASCII\r\n", "AS CII", "\"ASCII\"", "ASCII,", "ASCII, US-ASCII", "ASCII US-ASCII", "|ASCII|", "ASCIIASCII", "646646", "\u00A0ASCII", "\uFEFFUTF-8", "UTF\u20118", "UTF\u20138", "UTF\u00AD-8", "ASCII\u0301",
	}
}

// TestLookupNoNames: texts that are none, in large letters and in small ones.
func TestLookupNoNames(t *testing.T) {
	for _, s := range noNames() {
		checkLookup(t, s, 0, api.ErrName)
		checkLookup(t, lower(s), 0, api.ErrName)
		checkLookup(t, mixed(s, 1), 0, api.ErrName)
	}
}

// TestLookupBeyond: letters beyond ASCII that elsewhere are taken as ones of ASCII, in the place of each letter that they are taken as.
func TestLookupBeyond(t *testing.T) {
	m := newModel(t)
	beyond := map[byte][]rune{'S': {0x017F, 0x1E9B, 0x0455}, 'K': {0x212A, 0x039A, 0x03BA, 0x041A}, 'I': {0x0130, 0x0131, 0x0399, 0x0406, 0x2160}, 'A': {0x212B, 0x00C5, 0x0391, 0x0410, 0x00AA}, 'O': {0x00BA, 0x039F, 0x041E}, '1': {0x00B9, 0x2081, 0x0661}, '2': {0x00B2}, '8': {0x2088, 0x0668}, '-': {0x2010, 0x2212, 0x00AD}, '_': {0xFF3F, 0x203F}, '.': {0x2024, 0x3002}}
	replaced := 0
	for _, name := range m.all() {
		for at := range len(name) {
			l := append([]rune{rune(name[at]) + 0xFEE0, rune(name[at]) + 0x100, rune(name[at]) + 0x80, rune(name[at]) + 0x10000, 0xFFFD}, beyond[name[at]]...)
			if c := lower(name[at : at+1])[0]; c != name[at] {
				l = append(l, rune(c)+0xFEE0)
			}
			for _, u := range l {
				for _, s := range []string{name[:at] + string(u) + name[at+1:], lower(name[:at]) + string(u) + lower(name[at+1:])} {
					checkLookup(t, s, 0, api.ErrName)
					checkParse(t, s, names.Wish{}, api.ErrName)
					replaced++
				}
			}
		}
	}
	if replaced < 10000 {
		t.Errorf("%d texts were tried", replaced)
	}
	for _, s := range []string{"A\u017FCII", "a\u017Fcii", "\u212AOI8-R", "\u212Aoi8-u", "GREE\u212A", "\u017FJI\u017F", "MS_\u212AANJI", "LAT\u0131N1", "lat\u0130n1", "\uFF35\uFF34\uFF26\uFF0D\uFF18", "\u00FCtf-8"} {
		checkLookup(t, s, 0, api.ErrName)
	}
	// The library takes these as the same, so that its folding would not do.
	if !strings.EqualFold("A\u017FCII", "ASCII") || !strings.EqualFold("\u212AOI8-R", "KOI8-R") || strings.ToUpper("a\u017Fcii") != "ASCII" {
		t.Error("the letters beyond ASCII are of no sort that is taken as one of ASCII")
	}
}

// TestLookupBytes: texts that are no UTF-8.
func TestLookupBytes(t *testing.T) {
	m := newModel(t)
	for _, s := range []string{"\xFF", "\xC3", "\xC3\x28", "\xED\xA0\x80", "\xF4\x90\x80\x80", "\xC1\x81SCII", "\xE0\x81\x81SCII", "UTF-8\xFF", "\xFEUTF-8", "UT\xC6-8", "\xF5\xF4\xE6\xAD\xB8"} {
		checkLookup(t, s, 0, api.ErrName)
	}
	for _, name := range m.all() {
		for _, piece := range []string{"\xFF", "\x80", "\xC3", "\xE2\x82", "\xF0\x9F\x98", "\xED\xA0\x80"} {
			for at := range len(name) + 1 {
				checkLookup(t, name[:at]+piece+name[at:], 0, api.ErrName)
			}
		}
	}
}

// TestLookupLong: texts that are far longer than any name; Lookup has no limit of its own.
func TestLookupLong(t *testing.T) {
	for _, n := range []int{17, 18, 64, 65, 66, 256, 257, 1 << 16, 1<<20 + 1, 1 << 24} {
		for _, piece := range []string{"A", "UTF-8", "utf-8//", "\x00", " ", "\xFF", "\u017F"} {
			checkLookup(t, strings.Repeat(piece, n), 0, api.ErrName)
		}
	}
	for _, name := range newModel(t).all() {
		for _, n := range []int{255, 256, 65535, 65536} {
			checkLookup(t, name+strings.Repeat("\x00", n), 0, api.ErrName)
			checkLookup(t, strings.Repeat(" ", n)+name, 0, api.ErrName)
		}
	}
}

// TestLookupShort: all texts of up to two bytes, and all of three bytes that stand in names.
func TestLookupShort(t *testing.T) {
	m := newModel(t)
	m.checkText(t, "")
	for a := range 256 {
		m.checkText(t, string([]byte{byte(a)}))
		for b := range 256 {
			m.checkText(t, string([]byte{byte(a), byte(b)}))
		}
	}
	signs := []byte("0123456789MACmaczHZ-_.")
	for _, a := range signs {
		for _, b := range signs {
			for _, c := range signs {
				m.checkText(t, string([]byte{a, b, c}))
			}
		}
	}
}

// TestLookupAny: texts of pieces of names, and of any bytes.
func TestLookupAny(t *testing.T) {
	m := newModel(t)
	r := rand.New(rand.NewPCG(23, 2))
	all := m.all()
	found := 0
	for range 200000 {
		a, b := all[r.IntN(len(all))], all[r.IntN(len(all))]
		s := []byte(a[:r.IntN(len(a)+1)] + b[r.IntN(len(b)+1):])
		for i := range s {
			switch r.IntN(24) {
			case 0:
				s[i] = byte(r.Uint32())
			case 1, 2, 3, 4, 5, 6:
				s[i] = lower(string(s[i : i+1]))[0]
			}
		}
		m.checkText(t, string(s))
		if _, e := m.lookupText(string(s)); e == api.OK {
			found++
		}
	}
	if found < 1000 || found > 190000 {
		t.Errorf("%d texts are names", found)
	}
}

// TestLookupNumbers: all ints.
func TestLookupNumbers(t *testing.T) {
	m := newModel(t)
	n := 0
	for key := range numbers {
		kind, e := m.lookupInt(key)
		checkLookup(t, key, kind, e)
		if e == api.OK {
			n++
		}
	}
	if n != listedKinds {
		t.Errorf("%d numbers are kinds", n)
	}
	for _, key := range []int{-2, 0, 12, 20, 32, 37, 39, 42, 49, 59, 67, 69, 73, 79, 89, 437, 646, 1252} {
		checkLookup(t, key, 0, api.ErrKind)
	}
}

// Types that are made of strings and ints, and of others.
type (
	text   string
	number int
	pair   struct {
		Kind int
		Name string
	}
	box[T any] struct{ v T }
)

// loud is a key that nobody may ask for its text or number.
type loud struct{ t *testing.T }

func (l loud) String() string { l.t.Error("String was called"); return "UTF-8" }
func (l loud) Error() string  { l.t.Error("Error was called"); return "UTF-8" }
func (l loud) Unwrap() error  { l.t.Error("Unwrap was called"); return api.Errno(2) }
func (l loud) Int() int       { l.t.Error("Int was called"); return 2 }

// called is a key whose methods panic, of a nil pointer.
type called struct{ name string }

func (c *called) String() string { return c.name }

// keys is keys that are neither strings nor ints, many of which say a name or a kind nevertheless.
func keys(t *testing.T) []any {
	name, kind := "UTF-8", 2
	var noText *string
	var noNumber *int
	var noError error
	var noFunction func()
	var nested any = name
	numbers := []any{
		int8(2), int16(2), int32(2), int64(2), uint(2), uint8(2), uint16(2), uint32(2), uint64(2), uintptr(2), float32(2), float64(2), 2.0, 3.5, math.NaN(), math.Inf(1), complex64(2), complex(2, 0), 2i, 'a', '2', rune(2), rune(21), byte(2), byte('2'),
		api.OK, api.More, api.ErrRange, api.Errno(21), api.ErrName, number(2), number(21), number(12), int64(math.MaxInt64), uint64(math.MaxUint64), int8(-1), int32(12), uint(12), true, false,
	}
	texts := []any{
		text("UTF-8"), text("utf-8"), text(""), text("utf"), []byte("UTF-8"), []byte{}, []byte(nil), []rune{'U', 'T', 'F', '-', '8'}, []string{"UTF-8"}, []string(nil), [1]string{"UTF-8"}, [5]byte{'U', 'T', 'F', '-', '8'}, []text{"UTF-8"}, [0]string{},
		errors.New("UTF-8"), fmt.Errorf("UTF-8: %w", api.ErrName), new(strings.Builder), strings.NewReader("UTF-8"), strconv.ErrSyntax,
	}
	others := []any{
		nil, noError, noText, noNumber, noFunction, &name, &kind, &nested, &noText, (*called)(nil), &called{"UTF-8"}, called{"UTF-8"}, any(nil), []any{"UTF-8"}, []any{2}, [1]any{"UTF-8"}, []int{2}, []int(nil), [1]int{2},
		struct{}{}, struct{ string }{"UTF-8"}, struct{ int }{2}, pair{2, "UTF-8"}, &pair{2, "UTF-8"}, box[string]{"UTF-8"}, box[int]{2}, box[any]{2}, names.Wish{Kind: 2}, &names.Wish{Kind: 2}, api.State{Mode: 2}, api.Pair{Code: 2},
		map[string]int{"UTF-8": 2}, map[int]string{2: "UTF-8"}, map[string]int(nil), make(chan int), make(chan string, 1), (chan int)(nil), func() {}, func() string { return "UTF-8" }, func() int { return 2 }, names.Name, names.Lookup,
		loud{t}, &loud{t}, [2]loud{{t}, {t}},
	}
	return slices.Concat(numbers, texts, others)
}

// TestLookupKeys: keys of other types, whatever they hold; and they are left as they are.
func TestLookupKeys(t *testing.T) {
	for i, key := range keys(t) {
		if kind, e := names.Lookup(key); kind != 0 || e != api.ErrField {
			t.Errorf("key %d, of %T: %d, %d", i, key, kind, e)
		}
	}
	key := []byte("utf-8")
	checkLookup(t, key, 0, api.ErrField)
	if string(key) != "utf-8" {
		t.Errorf("the key became %q", key)
	}
}

// TestLookupKinds: each kind as a number of another width, and each name of another type, is neither.
func TestLookupKinds(t *testing.T) {
	for kind, l := range newModel(t).names {
		for _, key := range []any{int8(kind), int16(kind), int32(kind), int64(kind), uint(kind), uint8(kind), uint64(kind), float64(kind), api.Errno(kind), number(kind), &kind} {
			checkLookup(t, key, 0, api.ErrField)
		}
		for _, name := range l {
			for _, key := range []any{text(name), []byte(name), []rune(name), &name, errors.New(name)} {
				checkLookup(t, key, 0, api.ErrField)
			}
		}
		checkLookup(t, strconv.Itoa(kind), 0, api.ErrName)
	}
}

// Promise 23.3: wishes.

// TestParseByEye: texts of every sort, written out.
func TestParseByEye(t *testing.T) {
	both := names.Wish{Kind: api.UTF8, Translit: true, Ignore: true}
	for s, want := range map[string]names.Wish{
		"UTF-8": {Kind: 2}, "utf8": {Kind: 2}, "UTF-8//": {Kind: 2}, "UTF-8////": {Kind: 2}, "UTF-8//////": {Kind: 2}, "UTF-8//TRANSLIT": {Kind: 2, Translit: true}, "UTF-8//Translit//": {Kind: 2, Translit: true}, "UTF-8////translit": {Kind: 2, Translit: true},
		"UTF-8//IGNORE": {Kind: 2, Ignore: true}, "UTF-8//ignore//IGNORE": {Kind: 2, Ignore: true}, "UTF-8//TRANSLIT//TRANSLIT": {Kind: 2, Translit: true}, "UTF-8//IGNORE//TRANSLIT": both, "UTF-8//TRANSLIT//IGNORE": both, "UTF-8//tRaNsLiT////iGnOrE//": both, "UTF-8//IGNORE//TRANSLIT//IGNORE": both,
		"646": {Kind: 1}, "646//ignore": {Kind: 1, Ignore: true}, "hz//translit": {Kind: 85, Translit: true}, "Latin-9//Ignore": {Kind: 35, Ignore: true}, "iso-2022-kr//": {Kind: 88},
	} {
		checkParse(t, s, want, api.OK)
	}
	for s, e := range map[string]api.Errno{
		"": api.ErrName, "/": api.ErrName, "//": api.ErrName, "///": api.ErrName, "////": api.ErrName, "//UTF-8": api.ErrName, "/UTF-8": api.ErrName, "UTF-8/": api.ErrName, "UTF-8/TRANSLIT": api.ErrName, "UTF-8/IGNORE//": api.ErrName, "TRANSLIT": api.ErrName, "TRANSLIT//UTF-8": api.ErrName, "//IGNORE": api.ErrName,
		" UTF-8//TRANSLIT": api.ErrName, "UTF-8 //TRANSLIT": api.ErrName, "utf//x": api.ErrName, "x//x": api.ErrName, "2": api.ErrName, "UTF-8\\\\TRANSLIT": api.ErrName, "UTF-8,TRANSLIT": api.ErrName, "UTF-8\uFF0F\uFF0FTRANSLIT": api.ErrName, "A\u017FCII//TRANSLIT": api.ErrName,
		"UTF-8///": api.ErrField, "UTF-8///TRANSLIT": api.ErrField, "UTF-8//TRANSLIT/": api.ErrField, "UTF-8//TRANSLIT///IGNORE": api.ErrField, "UTF-8//TRANSLIT/IGNORE": api.ErrField, "UTF-8/////": api.ErrField, "UTF-8//UTF-8": api.ErrField, "UTF-8// ": api.ErrField, "UTF-8// TRANSLIT": api.ErrField, "UTF-8//TRANSLIT ": api.ErrField,
		"UTF-8//TRANSLI": api.ErrField, "UTF-8//TRANSLITE": api.ErrField, "UTF-8//IGNOR": api.ErrField, "UTF-8//IGNORED": api.ErrField, "UTF-8//TRAN\u017FLIT": api.ErrField, "UTF-8//TRANSL\u0131T": api.ErrField, "UTF-8//\u0130GNORE": api.ErrField, "UTF-8//TRANSLITIGNORE": api.ErrField, "UTF-8//IGNORE,TRANSLIT": api.ErrField,
		"UTF-8//x//TRANSLIT": api.ErrField, "UTF-8//TRANSLIT//x": api.ErrField, "UTF-8////x": api.ErrField, "UTF-8//\x00": api.ErrField, "UTF-8//\xFF": api.ErrField, "UTF-8//T": api.ErrField, "UTF-8//1": api.ErrField, "UTF-8//NONE": api.ErrField,
	} {
		checkParse(t, s, names.Wish{}, e)
	}
}

// TestParseLong: the number of bytes is looked at ahead of all else.
func TestParseLong(t *testing.T) {
	m := newModel(t)
	for n := range 300 {
		for _, head := range []string{"", "UTF-8", "UTF-16", "utf-8//translit", "UTF-16//IGNORE", "UTF-8//x", "x", "x//x", "//", "UTF-8//TRANSLIT//IGNORE//TRANSLIT//IGNORE//IGNORE//TRANSLIT"} {
			for _, fill := range []string{"/", "x", "\x00", " ", "\xFF", "8"} {
				if n < len(head) {
					continue
				}
				s := head + strings.Repeat(fill, n-len(head))
				m.checkWhole(t, s)
				if _, e := names.Parse(s); (e == api.ErrLong) != (n > 64) {
					t.Fatalf("of %d bytes: error %d", n, e)
				}
			}
		}
	}
	for _, n := range []int{65, 128, 256, 320, 1 << 16, 1<<16 + 5, 1<<20 + 1, 1 << 24} {
		checkParse(t, strings.Repeat("A", n), names.Wish{}, api.ErrLong)
		checkParse(t, "UTF-8"+strings.Repeat("//", n), names.Wish{}, api.ErrLong)
		checkParse(t, "UTF-8//x"+strings.Repeat("\x00", n), names.Wish{}, api.ErrLong)
	}
}

// TestParseEdge: 64 bytes and 65, of which all else is right or wrong; bytes count, not letters.
func TestParseEdge(t *testing.T) {
	for _, c := range []struct {
		s string
		n int
		w names.Wish
		e api.Errno
	}{
		{"UTF-16" + strings.Repeat("//", 29), 64, names.Wish{Kind: 5}, api.OK},
		{"UTF-8" + strings.Repeat("//", 29), 63, names.Wish{Kind: 2}, api.OK},
		{"UTF-8" + strings.Repeat("//", 30), 65, names.Wish{}, api.ErrLong},
		{"UTF-8" + strings.Repeat("//", 29) + "/", 64, names.Wish{}, api.ErrField},
		{"HZ" + strings.Repeat("//TRANSLIT", 3) + strings.Repeat("//IGNORE", 4), 64, names.Wish{Kind: 85, Translit: true, Ignore: true}, api.OK},
		{"646" + strings.Repeat("//TRANSLIT", 3) + strings.Repeat("//IGNORE", 4), 65, names.Wish{}, api.ErrLong},
		{strings.Repeat("\u00E4", 32), 64, names.Wish{}, api.ErrName},
		{strings.Repeat("\u00E4", 33), 66, names.Wish{}, api.ErrLong},
		{strings.Repeat("\U0001F600", 16), 64, names.Wish{}, api.ErrName},
		{strings.Repeat("\U0001F600", 17), 68, names.Wish{}, api.ErrLong},
		{"\u20AC" + strings.Repeat("x", 61), 64, names.Wish{}, api.ErrName},
		{"\u20AC" + strings.Repeat("x", 62), 65, names.Wish{}, api.ErrLong},
		{"HZ//" + strings.Repeat("\u20AC", 20), 64, names.Wish{}, api.ErrField},
		{"HZ//" + strings.Repeat("\u20AC", 21), 67, names.Wish{}, api.ErrLong},
	} {
		if len(c.s) != c.n {
			t.Fatalf("%q has %d bytes, not %d", c.s, len(c.s), c.n)
		}
		checkParse(t, c.s, c.w, c.e)
	}
}

// rows is all rows of up to some parts.
func rows(parts []string, most int) [][]string {
	all, last := [][]string{nil}, [][]string{nil}
	for range most {
		var next [][]string
		for _, row := range last {
			for _, part := range parts {
				next = append(next, append(slices.Clone(row), part))
			}
		}
		all, last = append(all, next...), next
	}
	return all
}

// checkRow holds Parse of a name and further parts against the document, without taking anything apart.
func (m model) checkRow(t *testing.T, name string, row []string) {
	s := strings.Join(append([]string{name}, row...), "//")
	w, e := m.join(append([]string{name}, row...))
	if len(s) > 64 {
		w, e = names.Wish{}, api.ErrLong
	}
	if got, gotE := names.Parse(s); got != w || gotE != e {
		t.Helper()
		t.Fatalf("Parse(%q) = %+v, %d, want %+v, %d", s, got, gotE, w, e)
	}
}

// TestParseRows: each name with each row of up to four parts that are right or wrong.
func TestParseRows(t *testing.T) {
	m := newModel(t)
	all := rows([]string{"TRANSLIT", "translit", "TransLit", "IGNORE", "ignore", "iGNORe", "", "x"}, 4)
	for i, name := range m.all() {
		for n, row := range all {
			if n%3 == 0 {
				m.checkRow(t, mixed(name, i%2), row)
			} else {
				m.checkRow(t, name, row)
			}
		}
	}
}

// TestParseParts: some names, and texts that are none, with each row of up to four parts of many sorts.
func TestParseParts(t *testing.T) {
	m := newModel(t)
	parts := []string{"TRANSLIT", "translit", "TransLit", "IGNORE", "ignore", "iGnOrE", "", "x", "UTF-8", "IGNORE ", "TRANSLI"}
	for _, row := range rows(parts, 4) {
		for _, name := range []string{"UTF-8", "hz", "UNICODE-1-1-UTF-7", "utf", "", "TRANSLIT", "\xFF"} {
			m.checkRow(t, name, row)
		}
	}
}

// TestParseWords: each way to write the words, each with a byte more, less, or another one.
func TestParseWords(t *testing.T) {
	m := newModel(t)
	for word, want := range map[string]names.Wish{"TRANSLIT": {Kind: 85, Translit: true}, "IGNORE": {Kind: 85, Ignore: true}} {
		for _, s := range writings(word) {
			checkParse(t, "hz//"+s, want, api.OK)
		}
		for at := range len(word) {
			m.checkWhole(t, "hz//"+word[:at]+word[at+1:])
			m.checkWhole(t, "hz//"+word[:at])
			m.checkWhole(t, "hz//"+word[at:])
			for b := range 256 {
				c := string([]byte{byte(b)})
				for _, s := range []string{word[:at] + c + word[at:], word[:at] + c + word[at+1:], word + c, lower(word[:at]) + c + lower(word[at+1:])} {
					m.checkWhole(t, "hz//"+s)
					m.checkWhole(t, "hz//ignore//"+s+"//TRANSLIT")
				}
			}
		}
	}
}

// TestParseNames: what is a name alone is one ahead of further parts, and nothing else is.
func TestParseNames(t *testing.T) {
	m := newModel(t)
	for _, name := range m.all() {
		for _, s := range []string{name, lower(name), mixed(name, 0), mixed(name, 1), name + " ", " " + name, name[1:], name[:len(name)-1], name + "x", name + "\x00", name + "/", "/" + name} {
			for _, tail := range []string{"", "//", "//TRANSLIT", "//ignore", "//x", "///", "//x//IGNORE", "//IGNORE//x"} {
				m.checkWhole(t, s+tail)
			}
		}
	}
	for _, s := range noNames() {
		if strings.Contains(s, "/") {
			continue
		}
		for _, tail := range []string{"", "//", "//TRANSLIT", "//x", "///x"} {
			checkParse(t, s+tail, names.Wish{}, api.ErrName)
		}
	}
}

// TestParseSlashes: up to seven / in each place of a text.
func TestParseSlashes(t *testing.T) {
	m := newModel(t)
	slashes := []string{"", "/", "//", "///", "////", "/////", "//////", "///////"}
	for _, s := range slashes {
		m.checkWhole(t, s)
		m.checkWhole(t, "UTF-8"+s)
		m.checkWhole(t, s+"UTF-8")
	}
	for _, l := range rows(slashes, 4) {
		if len(l) == 4 {
			m.checkWhole(t, l[0]+"UTF-8"+l[1]+"TRANSLIT"+l[2]+"ignore"+l[3])
			m.checkWhole(t, l[0]+"hz"+l[1]+"x"+l[2]+"IGNORE"+l[3])
			m.checkWhole(t, l[0]+"KOI8-R"+l[1]+"translit"+l[2]+"x"+l[3])
		}
	}
	for _, name := range m.all() {
		for at := range len(name) + 1 {
			for n := range 6 {
				m.checkWhole(t, name[:at]+strings.Repeat("/", n)+name[at:])
				m.checkWhole(t, name[:at]+strings.Repeat("/", n)+name[at:]+"//IGNORE")
			}
		}
	}
}

// TestParseTokens: all texts of up to seven pieces.
func TestParseTokens(t *testing.T) {
	m := newModel(t)
	reached := map[api.Errno]int{}
	for _, l := range rows([]string{"/", "UTF-8", "TRANSLIT", "ignore", "x"}, 7) {
		s := strings.Join(l, "")
		m.checkWhole(t, s)
		_, e := m.parse(s)
		reached[e]++
	}
	if len(reached) != 3 {
		t.Errorf("%d sorts of answers", len(reached))
	}
	for _, l := range rows([]string{"/", "//", "HZ", "translit", "IGNORE"}, 7) {
		m.checkWhole(t, "HZ"+strings.Join(l, ""))
	}
}

// TestParseFirst: of several errors the leftmost one is told.
func TestParseFirst(t *testing.T) {
	right, wrong := []string{"TRANSLIT", "ignore", ""}, []string{"x", "UTF-8", "TRANSLIT ", "/IGNORE"}
	for _, bad := range wrong {
		for _, other := range slices.Concat(right, wrong) {
			checkParse(t, "utf//"+bad+"//"+other, names.Wish{}, api.ErrName)
			checkParse(t, "//"+bad+"//"+other, names.Wish{}, api.ErrName)
			checkParse(t, "UTF-8//"+bad+"//"+other, names.Wish{}, api.ErrField)
			checkParse(t, "UTF-8//"+other+"//"+bad, names.Wish{}, api.ErrField)
			checkParse(t, "utf//"+bad+"//"+other+strings.Repeat("/", 60), names.Wish{}, api.ErrLong)
			checkParse(t, "UTF-8//"+bad+"//"+other+strings.Repeat("x", 60), names.Wish{}, api.ErrLong)
		}
	}
}

// TestParseAny: any bytes, and texts of pieces.
func TestParseAny(t *testing.T) {
	m := newModel(t)
	r := rand.New(rand.NewPCG(23, 3))
	pieces := []string{"/", "//", "//", "//", "///", "TRANSLIT", "Translit", "IGNORE", "ignore", "x", " ", "\u00E4"}
	all := m.all()
	for range 200000 {
		s := ""
		if r.IntN(8) > 0 {
			s = mixed(all[r.IntN(len(all))], r.IntN(2))
		}
		for range r.IntN(8) {
			if r.IntN(12) == 0 {
				s += string([]byte{byte(r.Uint32())})
			} else {
				s += pieces[r.IntN(len(pieces))]
			}
		}
		m.checkWhole(t, s)
	}
	for a := range 256 {
		for b := range 256 {
			m.checkWhole(t, string([]byte{byte(a), byte(b)}))
			m.checkWhole(t, "hz//"+string([]byte{byte(a), byte(b)}))
			m.checkWhole(t, "hz"+string([]byte{byte(a), byte(b)})+"ignore")
		}
	}
}

// TestPrint: each kind with each choice, and each number that is no kind.
func TestPrint(t *testing.T) {
	m := newModel(t)
	n := 0
	for kind := range numbers {
		for _, w := range choices(kind) {
			got := names.Print(w)
			if got != m.print(w) {
				t.Fatalf("Print(%+v) = %q, want %q", w, got, m.print(w))
			}
			if got != "" {
				n++
			}
		}
	}
	if n != 4*listedKinds {
		t.Errorf("%d wishes are printed", n)
	}
	for want, w := range map[string]names.Wish{
		"ASCII": {Kind: 1}, "UTF-8//TRANSLIT": {Kind: 2, Translit: true}, "ISO-8859-1//IGNORE": {Kind: 21, Ignore: true}, "WINDOWS-1252//TRANSLIT//IGNORE": {Kind: 52, Translit: true, Ignore: true}, "ISO-2022-KR//TRANSLIT//IGNORE": {Kind: 88, Translit: true, Ignore: true},
	} {
		if got := names.Print(w); got != want {
			t.Errorf("Print(%+v) = %q, want %q", w, got, want)
		}
	}
	for _, kind := range []int{-1, 0, 12, 20, 32, 39, 89} {
		for _, w := range choices(kind) {
			if got := names.Print(w); got != "" {
				t.Errorf("Print(%+v) = %q", w, got)
			}
		}
	}
}

// Promise 23.4: what follows.

// TestThereAndBack: Parse of Print is the wish.
func TestThereAndBack(t *testing.T) {
	n := 0
	for kind := range numbers {
		if names.Name(kind) == "" {
			continue
		}
		for _, w := range choices(kind) {
			checkParse(t, names.Print(w), w, api.OK)
			checkParse(t, lower(names.Print(w)), w, api.OK)
			n++
		}
	}
	if n != 4*listedKinds {
		t.Errorf("%d wishes went there and back", n)
	}
}

// TestNamesAreKinds: Lookup of each of a kind's names is the kind.
func TestNamesAreKinds(t *testing.T) {
	for _, kind := range names.Kinds() {
		if l := names.Aliases(kind); len(l) == 0 || l[0] != names.Name(kind) {
			t.Errorf("kind %d: %q, %q", kind, names.Name(kind), l)
		}
		checkLookup(t, kind, kind, api.OK)
		for _, name := range names.Aliases(kind) {
			for _, s := range []string{name, upper(name), lower(name), mixed(name, 0), mixed(name, 1)} {
				checkLookup(t, s, kind, api.OK)
				checkParse(t, s, names.Wish{Kind: kind}, api.OK)
			}
		}
	}
}

// TestNamesOnce: no name is two kinds', nor twice one's.
func TestNamesOnce(t *testing.T) {
	owner := map[string]int{}
	for _, kind := range names.Kinds() {
		for _, name := range names.Aliases(kind) {
			if other, ok := owner[upper(name)]; ok {
				t.Errorf("%q is %d's and %d's", name, other, kind)
			}
			owner[upper(name)] = kind
		}
	}
	if len(owner) != listedNames {
		t.Errorf("%d names", len(owner))
	}
}
