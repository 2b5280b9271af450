package script_test

import (
	"bytes"
	"encoding/hex"
	"fmt"
	"math/rand/v2"
	"slices"
	"strings"
	"sync"
	"testing"

	"dragoman/api"
	"dragoman/script"
)

// asTold is lines as Run tells them.
func asTold(lines []string) string {
	var all strings.Builder
	for _, line := range lines {
		all.WriteString(line + "\n")
	}
	return all.String()
}

// runs holds what a text's lines tell against what is wanted.
func runs(t *testing.T, text string, want ...string) {
	t.Helper()
	if got := script.Run(text); got != asTold(want) {
		t.Errorf("Run(%.200q): %.300q, want %.300q", text, got, asTold(want))
	}
}

// holds holds what a text's lines tell, line by line, against some calls, and answers it.
func holds(t *testing.T, c calls, text string) []string {
	t.Helper()
	got := strings.SplitAfter(script.Run(text), "\n")
	want := tells(c, text)
	for i, line := range want {
		if i >= len(got) || got[i] != line+"\n" {
			t.Fatalf("line %d of what %.300q tells: %.300q, want %.300q", i, text, got[min(i, len(got)-1)], line)
		}
	}
	if len(got) != len(want)+1 || got[len(want)] != "" {
		t.Fatalf("%.300q tells %d lines more: %.300q", text, len(got)-1-len(want), got[len(want):])
	}
	return want
}

// someBytes is any bytes.
func someBytes(r *rand.Rand, n int) []byte {
	b := make([]byte, n)
	for i := range b {
		b[i] = byte(r.Uint32())
	}
	return b
}

// Promise 26.1: Hex.

func TestHexOfNone(t *testing.T) {
	for _, b := range [][]byte{nil, {}, make([]byte, 0, 9), []byte("abc")[:0]} {
		if s := script.Hex(b); s != "-" {
			t.Errorf("Hex of no bytes: %q", s)
		}
	}
}

func TestHexByEye(t *testing.T) {
	for in, want := range map[string]string{
		"\x00": "00", "\x09": "09", "\x0A": "0A", "\x10": "10", "\x9F": "9F", "\xA0": "A0", "\xFF": "FF", "-": "2D",
		"\x00\x00": "0000", "A\xC3\xA4\xC3": "41C3A4C3", "\xAB\xCD\xEF\x01\x23\x45\x67\x89": "ABCDEF0123456789",
	} {
		if s := script.Hex([]byte(in)); s != want {
			t.Errorf("Hex(%q): %q, want %q", in, s, want)
		}
	}
}

func TestHexOfEachByte(t *testing.T) {
	for b := range 256 {
		if s, want := script.Hex([]byte{byte(b)}), fmt.Sprintf("%02X", b); s != want {
			t.Errorf("Hex of %d: %q, want %q", b, s, want)
		}
	}
}

func TestHexOfMany(t *testing.T) {
	r := rand.New(rand.NewPCG(26, 1))
	for _, n := range []int{2, 3, 4, 5, 7, 8, 9, 15, 16, 17, 63, 64, 65, 255, 256, 1000, api.MaxText, api.MaxIn + 1} {
		b := someBytes(r, n)
		if s := script.Hex(b); s != fmt.Sprintf("%X", b) {
			t.Errorf("Hex of %d bytes: %.80q, want %.80X", n, s, b)
		}
	}
}

// Promise 26.1: Bytes.

// digitsAre holds Bytes of a text against the library's own.
func digitsAre(t *testing.T, s string) {
	t.Helper()
	want, err := hex.DecodeString(s)
	ok := err == nil && s != ""
	if s == "-" {
		want, ok = nil, true
	}
	if !ok {
		want = nil
	}
	b, yes := script.Bytes(s)
	if !bytes.Equal(b, want) || yes != ok {
		t.Fatalf("Bytes(%.80q): %.80X, %t, want %.80X, %t", s, b, yes, want, ok)
	}
}

func TestBytesByEye(t *testing.T) {
	for in, want := range map[string]string{
		"-": "", "00": "\x00", "0a": "\x0A", "0A": "\x0A", "aF": "\xAF", "Fa": "\xFA", "ff": "\xFF", "FF": "\xFF", "2D": "-",
		"41C3A4C3": "A\xC3\xA4\xC3", "41c3a4c3": "A\xC3\xA4\xC3", "41C3a4c3": "A\xC3\xA4\xC3", "0000": "\x00\x00",
		"0123456789abcdefABCDEF": "\x01\x23\x45\x67\x89\xAB\xCD\xEF\xAB\xCD\xEF",
	} {
		if b, ok := script.Bytes(in); string(b) != want || !ok {
			t.Errorf("Bytes(%q): %X, %t, want %X", in, b, ok, want)
		}
	}
	for _, in := range []string{
		"", "0", "A", "f", "000", "41C", "--", "---", "-0", "0-", "-00", "00-", "- ", " -", "4-", "-4", "41-42", "-4142", "4142-",
		"G0", "0G", "g0", "0g", "x0", "0x", "0x41", "/0", "0/", ":0", "0:", "@0", "0@", "`0", "0`", "41G1", "4G41", "G141", "41 42", " 41", "41 ", "41\n",
		"\x000", "0\x00", "+1", "-1", "1_", "_1", "1_00", "4\u0661", "\uFF11\uFF11", "\u00E4", "\xE4\xE4", "4\x80", "none",
	} {
		if b, ok := script.Bytes(in); len(b) != 0 || ok {
			t.Errorf("Bytes(%q): %X, %t, want none", in, b, ok)
		}
	}
}

func TestBytesOfTwo(t *testing.T) {
	for a := range 256 {
		digitsAre(t, string([]byte{byte(a)}))
		for b := range 256 {
			digitsAre(t, string([]byte{byte(a), byte(b)}))
		}
	}
}

func TestBytesOfThree(t *testing.T) {
	some := "0919AFafGg-+ /:@`\x00\x7F\x80\xFF"
	for _, a := range []byte(some) {
		for _, b := range []byte(some) {
			for _, c := range []byte(some) {
				digitsAre(t, string([]byte{a, b, c}))
			}
		}
	}
}

// TestBytesWithOneOther lays each byte in each place of digits.
func TestBytesWithOneOther(t *testing.T) {
	for _, digits := range []string{"41c3A4", "41c3A4C", "0123456789abcdefABCDEF"} {
		for at := range len(digits) {
			for b := range 256 {
				s := []byte(digits)
				s[at] = byte(b)
				digitsAre(t, string(s))
				digitsAre(t, digits[:at]+string([]byte{byte(b)})+digits[at:])
			}
		}
	}
}

func TestBytesOfMany(t *testing.T) {
	r := rand.New(rand.NewPCG(26, 2))
	for _, n := range []int{3, 8, 64, 255, 1000, api.MaxText, api.MaxIn + 1} {
		b := someBytes(r, n)
		for _, s := range []string{fmt.Sprintf("%X", b), fmt.Sprintf("%x", b), fmt.Sprintf("%x%X", b, b)} {
			digitsAre(t, s)
			digitsAre(t, s+"0")
			digitsAre(t, s+"-")
			digitsAre(t, s+"0g")
			digitsAre(t, "-"+s[1:])
		}
	}
}

// Promise 26.3: Bytes of Hex.

func TestBytesOfHex(t *testing.T) {
	all := [][]byte{nil}
	for a := range 256 {
		all = append(all, []byte{byte(a)})
		for b := range 256 {
			all = append(all, []byte{byte(a), byte(b)})
		}
	}
	r := rand.New(rand.NewPCG(26, 3))
	for range 2000 {
		all = append(all, someBytes(r, r.IntN(100)))
	}
	all = append(all, someBytes(r, api.MaxIn+3))
	for _, b := range all {
		back, ok := script.Bytes(script.Hex(b))
		if !bytes.Equal(back, b) || !ok {
			t.Fatalf("Bytes of Hex of %.80X: %.80X, %t", b, back, ok)
		}
	}
}

// R4: what is handed in is not changed, and what is handed out is new.

func TestHexChangesNothing(t *testing.T) {
	room := []byte("\x41\xC3\xA4\xEE\xEE\xEE")
	b := room[:3]
	s := script.Hex(b)
	b[0] = 0x42
	if again := script.Hex(b); s != "41C3A4" || again != "42C3A4" || string(room) != "\x42\xC3\xA4\xEE\xEE\xEE" {
		t.Errorf("Hex: %q, then %q, of %X", s, again, room)
	}
}

func TestBytesAreNew(t *testing.T) {
	for _, s := range []string{"-", "41", "41C3A4", "00000000000000000000"} {
		want, _ := script.Bytes(s)
		want = slices.Clone(want)
		for range 3 {
			b, ok := script.Bytes(s)
			if !bytes.Equal(b, want) || !ok {
				t.Errorf("Bytes(%q) again: %X, %t, want %X", s, b, ok, want)
			}
			b = b[:cap(b)]
			for i := range b {
				b[i] = 0x55
			}
		}
	}
}

// Promise 26.2: lines, words and blanks.

func TestRunOfNothing(t *testing.T) {
	for _, text := range []string{"", " ", "     ", "\n", "\n\n\n", " \n", "\n ", "  \n \n\n    \n  "} {
		runs(t, text)
	}
}

func TestRunEnds(t *testing.T) {
	for text, want := range map[string][]string{
		"live":                       {"-"},
		"live\n":                     {"-"},
		"live\n\n\n":                 {"-"},
		"\nlive":                     {"-"},
		"\n\n \nlive\n \n":           {"-"},
		"live\nlive":                 {"-", "-"},
		"live\nlive\n":               {"-", "-"},
		"name 2\n\n  \nname 1\n":     {"UTF-8", "ASCII"},
		"name 2\nname 1\nname 3":     {"UTF-8", "ASCII", "UTF-16BE"},
		"foo\n\nbar\n":               {"error 70", "error 70"},
		"open UTF-8 ASCII\nlive":     {"1", "1"},
		"open UTF-8 ASCII\n\nlive\n": {"1", "1"},
	} {
		runs(t, text, want...)
	}
}

func TestRunBlanks(t *testing.T) {
	for _, n := range []int{1, 2, 3, 10, 1000} {
		b := strings.Repeat(" ", n)
		for text, want := range map[string]string{
			b + "live": "-", "live" + b: "-", b + "live" + b: "-",
			"name" + b + "2": "UTF-8", b + "name" + b + "2" + b: "UTF-8", "name 2" + b: "UTF-8",
			"all" + b + "ASCII" + b + "UTF-16" + b + "FFFE4100" + b: "41 0 0",
			b + "all ASCII UTF-16 FFFE4100":                         "41 0 0",
			b + "foo" + b:                                           "error 70",
			"name" + b + "x" + b:                                    "error 3",
		} {
			runs(t, text, want)
			runs(t, text+"\n", want)
			runs(t, "\n"+text+"\n"+b+"\n"+text, want, want)
		}
	}
}

// TestRunNoBlanks has signs that other programs take as blanks, or as ends of lines: they are parts of words.
func TestRunNoBlanks(t *testing.T) {
	for _, sign := range []string{"\t", "\r", "\v", "\f", "\x00", "\x1F", "\x7F", "\x85", "\xA0", "\u0085", "\u00A0", "\u1680", "\u2003", "\u2028", "\u2029", "\u3000", "\uFEFF", ",", ";", "\\n", "_"} {
		runs(t, sign, "error 70")
		runs(t, sign+"live", "error 70")
		runs(t, "live"+sign, "error 70")
		runs(t, "live"+sign+"\nlive", "error 70", "-")
		runs(t, "live "+sign, "error 70")
		runs(t, sign+" live", "error 70")
		runs(t, "live"+sign+"live", "error 70")
		runs(t, "name"+sign+"2", "error 70")
		runs(t, "name 2"+sign, "error 3")
		runs(t, "name "+sign+"2", "error 3")
		runs(t, "name 2 "+sign, "error 70")
		runs(t, "all ASCII UTF-8 41"+sign, "error 3")
		runs(t, "all ASCII"+sign+"UTF-8 41", "error 70")
		runs(t, "all ASCII"+sign+" UTF-8 41", "- 0 20")
		runs(t, "open ASCII UTF-8"+sign, "error 20")
	}
	runs(t, "live\r\nname 2\r\n", "error 70", "error 3")
	runs(t, "live;live", "error 70")
}

// TestRunLongest has texts of MaxText bytes, and of one more.
func TestRunLongest(t *testing.T) {
	const most = api.MaxText
	if most != 1<<16 {
		t.Fatalf("MaxText is %d", most)
	}
	// Of each of these any number of bytes may be cut off behind.
	for _, c := range []struct{ text, want string }{
		{strings.Repeat(" ", most+1), ""},
		{strings.Repeat("\n", most+1), ""},
		{"live" + strings.Repeat(" ", most), "-\n"},
		{"live\n" + strings.Repeat("\n", most), "-\n"},
		{strings.Repeat(" ", most-4) + "live" + " ", "-\n"},
		{strings.Repeat("\n", most-4) + "live" + "\n", "-\n"},
		{strings.Repeat("x", most+1), "error 70\n"},
		{"name 2" + strings.Repeat(" ", most-8) + "\nx\n", "UTF-8\nerror 70\n"},
		{"name " + strings.Repeat("0", most), "error 3\n"},
		{"all ASCII UTF-8 " + strings.Repeat("4", most-15), strings.Repeat("4", most-16) + " 0 0\n"},
		{"all ASCII " + strings.Repeat("A", most-10) + " ", "error 70\n"},
		{strings.Repeat("\xFF", most+1), "error 70\n"},
		{strings.Repeat("\u3042", most/3+1), "error 70\n"},
		{strings.Repeat("live\n", most/5+1), strings.Repeat("-\n", most/5) + "error 70\n"},
	} {
		if got := script.Run(c.text[:most]); got != c.want {
			t.Errorf("Run of %d bytes, %.20q: %.40q, want %.40q", most, c.text, got, c.want)
		}
		if got := script.Run(c.text[:most+1]); got != "error 8\n" {
			t.Errorf("Run of %d bytes, %.20q: %.40q", most+1, c.text, got)
		}
	}
	long := "open UTF-8 ASCII\nlive\nname 2\n"
	for _, n := range []int{most + 2, 2 * most, 1 << 17, 1<<17 + 7, api.MaxIn + 1} {
		runs(t, long+strings.Repeat("\n", n-len(long)), "error 8")
	}
}

// Promise 26.2: error 70.

// every is a line of each sort, all well formed, and what it tells behind the opening lines that stand in ahead.
var every = []struct{ line, tells string }{
	{"open ASCII UTF-8", "3"},
	{"convert 1 41 9", "1 1B284241 0 0"},
	{"reset 1 9", "0 1B2842 0 0"},
	{"close 1", "ok"},
	{"live", "1 2"},
	{"all ASCII UTF-8 41", "41 0 0"},
	{"name 2", "UTF-8"},
}

// ahead opens two conversions, of which both are amid something; tail tells whether they still are.
const ahead = "open ISO-2022-JP UTF-8\nopen UTF-8//IGNORE CP1258\nconvert 1 E38182 9\nconvert 2 FF41 9\n"
const tail = "live\nconvert 1 E38182 2\nconvert 2 CC 9\nopen UTF-8 UTF-8\nreset 1 3\nreset 2 0\nlive\n"

func aheadTells() []string { return []string{"1", "2", "3 1B24422422 0 0", "2 C3BF 0 0"} }

func tailTells() []string {
	return []string{"1 2", "3 2422 0 0", "1 C380 0 0", "3", "0 1B2842 0 0", "0 - 0 0", "1 2 3"}
}

// doesNothing holds that a line tells an error, alone and amid others, and that nothing is done.
func doesNothing(t *testing.T, line, want string) {
	t.Helper()
	runs(t, line, want)
	runs(t, ahead+line+"\n"+tail, slices.Concat(aheadTells(), []string{want}, tailTells())...)
}

// TestTail holds what the two texts around a line tell with nothing between, and that each sort of line that does something is told there.
func TestTail(t *testing.T) {
	runs(t, ahead+tail, append(aheadTells(), tailTells()...)...)
	for _, line := range []string{"open ASCII UTF-8", "convert 1 41 9", "convert 2 42 9", "reset 1 9", "reset 2 9", "close 1", "close 2"} {
		got := strings.Split(script.Run(ahead+line+"\n"+tail), "\n")
		if slices.Equal(got[len(aheadTells())+1:], append(tailTells(), "")) {
			t.Errorf("%s: nothing tells that it was done", line)
		}
	}
	for _, c := range every {
		got := strings.Split(script.Run(ahead+c.line+"\n"), "\n")
		if got[len(aheadTells())] != c.tells {
			t.Errorf("%s: %q, want %q", c.line, got[len(aheadTells())], c.tells)
		}
	}
}

func TestFirstWord(t *testing.T) {
	for _, word := range []string{
		"foo", "-", "1", "0", "a", "+", "//", "ok", "error", "error 70", "help", "quit", "exit", "new", "names", "kinds", "hex", "bytes", "run", "set", "get", "lives", "Name",
		"open1", "op", "o", "opening", "converts", "conver", "reset1", "resets", "closed", "clos", "lif", "liv", "alls", "al", "nam", "names", "#live", "live#", "'live'", "\"live\"", "live,", "live;", "live.", "live-", "-live", "\u3042", "\xFF", "l\xEFve", "\u017Fet", "\u212A",
	} {
		doesNothing(t, word, "error 70")
		for _, c := range every {
			doesNothing(t, word+" "+c.line, "error 70")
		}
	}
	for _, c := range every {
		name, rest, _ := strings.Cut(c.line, " ")
		others := []string{strings.ToUpper(name), strings.ToUpper(name[:1]) + name[1:], name[:len(name)-1] + strings.ToUpper(name[len(name)-1:]), name + name, name[1:], name[:len(name)-1], name + "s", "x" + name, name + "\x00", "\uFEFF" + name}
		for _, other := range others {
			doesNothing(t, strings.TrimSpace(other+" "+rest), "error 70")
		}
	}
}

func TestCountsOfWords(t *testing.T) {
	for _, c := range every {
		words := strings.Fields(c.line)
		for n := 1; n < len(words); n++ {
			doesNothing(t, strings.Join(words[:n], " "), "error 70")
		}
		for at := 1; at < len(words); at++ {
			doesNothing(t, strings.Join(slices.Delete(slices.Clone(words), at, at+1), " "), "error 70")
		}
		for _, one := range []string{"1", "9", "-", "41", "x", "UTF-8", "live", "#", "\t", "\u3042"} {
			for at := 1; at <= len(words); at++ {
				doesNothing(t, strings.Join(slices.Insert(slices.Clone(words), at, one), " "), "error 70")
			}
			doesNothing(t, c.line+strings.Repeat(" "+one, 2), "error 70")
			doesNothing(t, c.line+strings.Repeat(" "+one, 50), "error 70")
		}
	}
}

// Promise 26.2: error 3.

// noNumbers is words that are none.
var noNumbers = []string{
	"0000000001", "1000000000", "9999999999", "0000000000", "00000000000000000001", "99999999999999999999", "18446744073709551617",
	"-", "--", "+", "-0", "+0", "-1", "+1", "1-", "1+", "x", "1x", "x1", "1x1", "0x1", "0X1", "0b1", "0o1", "1_0", "_1", "1_", "1.0", "1.", ".1", "1e0", "1,0", "A", "F", "a",
	"/", ":", "1/", "1:", "/1", ":1", "\x00", "1\x00", "\x001", "\t1", "1\t", "1\r", "\u0661", "1\u0661", "\uFF11", "\u00B9", "\u00BD", "\u2460", "\xB1", "\xFF", "one", "UTF-8",
}

// noBytes is words that are none.
var noBytes = []string{
	"4", "414", "41424", "--", "---", "-41", "41-", "4-", "-4", "4G", "G4", "g4", "4g", "41G1", "4G41", "G141", "0x41", "4x", "41,42", "41:42", "/1", "1/", ":1", "1:", "@1", "1@", "`1", "1`", "4\x00", "\x004", "4\t", "\u3042", "\xFF\xFF", "4\xFF", "\uFF11", "A", "x", "UTF-8", "none", "41\r",
}

func TestNoNumbers(t *testing.T) {
	for _, n := range noNumbers {
		for _, line := range []string{
			"convert " + n + " 41 9", "convert 1 41 " + n, "convert " + n + " 41 " + n, "convert 1 - " + n,
			"reset " + n + " 9", "reset 1 " + n, "reset " + n + " " + n, "close " + n, "name " + n,
		} {
			doesNothing(t, line, "error 3")
		}
	}
}

func TestNoBytes(t *testing.T) {
	for _, b := range noBytes {
		for _, line := range []string{"convert 1 " + b + " 9", "convert 2 " + b + " 9", "all ASCII UTF-8 " + b, "all UTF-8 CP1258 " + b} {
			doesNothing(t, line, "error 3")
		}
	}
}

// TestEachByteAsDigit lays every byte that may stand in a word where a digit should be.
func TestEachByteAsDigit(t *testing.T) {
	for b := range 256 {
		c := string([]byte{byte(b)})
		if c == " " || c == "\n" {
			continue
		}
		for _, text := range []string{"name " + c, "name 1" + c, "name " + c + "1", "name 1" + c + "1", "all UTF-8 ISO-8859-1 " + c + "1", "all UTF-8 ISO-8859-1 1" + c, "all UTF-8 ISO-8859-1 41" + c + "141", "all UTF-8 ISO-8859-1 " + c} {
			holds(t, newProgram(), text)
		}
	}
}

// closes is what close tells of one that is open, or is not.
func closes(open bool) string {
	if open {
		return "ok"
	}
	return "error 7"
}

func TestNumbers(t *testing.T) {
	for digits := 1; digits <= 12; digits++ {
		zeros := strings.Repeat("0", digits-1)
		if digits > 9 {
			doesNothing(t, "name "+zeros+"2", "error 3")
			doesNothing(t, "convert "+zeros+"1 41 9", "error 3")
			doesNothing(t, "convert 1 41 "+zeros+"9", "error 3")
			doesNothing(t, "reset 1 "+zeros+"9", "error 3")
			doesNothing(t, "close "+zeros+"1", "error 3")
			doesNothing(t, "name 2"+zeros, "error 3")
			continue
		}
		runs(t, "name "+zeros+"2", "UTF-8")
		runs(t, "name "+zeros+"0", "-")
		runs(t, "name 89"+zeros[:max(digits-2, 0)], "-")
		runs(t, "open UTF-8 ASCII\nconvert "+zeros+"1 4142 "+zeros+"1\nreset "+zeros+"1 "+zeros+"0\nclose "+zeros+"1\nlive", "1", "1 41 0 4", "0 - 0 0", "ok", "-")
		runs(t, "open UTF-8 ASCII\nclose 1"+strings.Repeat("1", digits-1)+"\nclose 01\nlive", "1", closes(digits == 1), closes(digits > 1), "-")
	}
	runs(t, "open UTF-8 ASCII\nconvert 1 4142 999999999\nreset 1 999999999\nconvert 999999999 41 999999999\nreset 999999999 0\nclose 999999999", "1", "2 4142 0 0", "0 - 0 0", "0 - 0 7", "0 - 0 7", "error 7")
	runs(t, "name 80\nname 81\nname 08\nname 088\nname 0880", "JIS_X0201", "EUC-JP", "UTF-32", "ISO-2022-KR", "-")
}

// TestFirstErrorCounts has lines in which several things are wrong: 70, then 3, then what the calls answer.
func TestFirstErrorCounts(t *testing.T) {
	for line, want := range map[string]string{
		"foo x":                   "error 70",
		"Close x":                 "error 70",
		"close x y":               "error 70",
		"close":                   "error 70",
		"close 0000000001 1":      "error 70",
		"convert x 4 y z":         "error 70",
		"convert x 4":             "error 70",
		"convert 1 4":             "error 70",
		"reset x":                 "error 70",
		"reset x 9 9":             "error 70",
		"name":                    "error 70",
		"name x 1":                "error 70",
		"live x":                  "error 70",
		"all x y":                 "error 70",
		"all x y 4 z":             "error 70",
		"all ASCII 4":             "error 70",
		"open x":                  "error 70",
		"open x y z":              "error 70",
		"open UTF-8 UTF-8 -":      "error 70",
		"convert x 4 9":           "error 3",
		"convert 7 4 9":           "error 3",
		"convert 7 41 x":          "error 3",
		"convert 7 x x":           "error 3",
		"convert x x x":           "error 3",
		"convert 0 - -1":          "error 3",
		"convert 1 41 -1":         "error 3",
		"reset 7 x":               "error 3",
		"reset 1 -1":              "error 3",
		"reset x x":               "error 3",
		"close -1":                "error 3",
		"all x y 4":               "error 3",
		"all x UTF-8 4":           "error 3",
		"all UTF-8 y zz":          "error 3",
		"all UTF-8//x UTF-8 4":    "error 3",
		"convert 7 41 9":          "0 - 0 7",
		"convert 0 FF 0":          "0 - 0 7",
		"reset 7 9":               "0 - 0 7",
		"close 7":                 "error 7",
		"close 0":                 "error 7",
		"open x y":                "error 20",
		"open UTF-8//x y":         "error 3",
		"open x UTF-8//x":         "error 20",
		"open UTF-8 y":            "error 20",
		"open UTF-8 UTF-8//x":     "error 3",
		"all x UTF-8//x 41":       "- 0 20",
		"all UTF-8//x y 41":       "- 0 3",
		"all UTF-8 UTF-8//x 41":   "- 0 3",
		"all UTF-8 y FF":          "- 0 20",
		"all x y -":               "- 0 20",
		"name 1000000000":         "error 3",
		"name 999999999":          "-",
		"convert 1 41 1000000000": "error 3",
	} {
		doesNothing(t, line, want)
	}
}

// Promise 26.2: open.

// refused is names that Open and All refuse, and with which error.
var refused = []struct{ name, err string }{
	{"x", "20"}, {"-", "20"}, {"utf", "20"}, {"UTF_8", "20"}, {"2", "20"}, {"//TRANSLIT", "20"}, {"//", "20"}, {"/", "20"}, {"UTF-8/", "20"}, {"UTF-8/TRANSLIT", "20"}, {"\u212AOI8-R", "20"}, {"UTF-8\t", "20"}, {"\xFF", "20"}, {"x//y", "20"},
	{"UTF-8//x", "3"}, {"UTF-8//TRANSLIT/", "3"}, {"UTF-8//TRANS", "3"}, {"UTF-8//IGNORE//x", "3"}, {"UTF-8///", "3"}, {"utf-8//translit//IGNOR", "3"}, {"UTF-8//UTF-8", "3"},
	{strings.Repeat("x", 64), "20"}, {strings.Repeat("x", 65), "8"}, {"UTF-8" + strings.Repeat("//", 30), "8"}, {"x//" + strings.Repeat("y", 62), "8"}, {"UTF-8//" + strings.Repeat("y", 57), "3"}, {"UTF-8//" + strings.Repeat("y", 58), "8"}, {strings.Repeat("UTF-8", 4000), "8"},
}

func TestOpenRefuses(t *testing.T) {
	for _, c := range refused {
		for _, other := range []string{"UTF-8", "latin1//TRANSLIT//IGNORE"} {
			doesNothing(t, "open "+c.name+" "+other, "error "+c.err)
			doesNothing(t, "open "+other+" "+c.name, "error "+c.err)
		}
		for _, d := range refused {
			runs(t, "open "+c.name+" "+d.name+"\nlive", "error "+c.err, "-")
		}
	}
}

func TestOpenTakes(t *testing.T) {
	for _, name := range []string{"UTF-8", "utf8", "Utf-8//", "UTF-8////", "utf-8//translit", "UTF-8//IGNORE", "uTf8//iGnOrE//TrAnSlIt", "UTF-8//TRANSLIT//TRANSLIT", "UTF-8" + strings.Repeat("//", 29), "646", "437", "ansi_x3.4-1968"} {
		runs(t, "open "+name+" "+name+"\nconvert 1 41 1", "1", "1 41 0 0")
	}
	for _, kind := range kinds() {
		for _, name := range kindNames()[kind] {
			text := "open UTF-8 " + name + "\nopen " + strings.ToLower(name) + " UTF-8\nlive\nconvert 2 41 9\nall " + name + " UTF-8 41"
			if told := holds(t, newModel(), text); told[0] != "1" || told[1] != "2" || told[2] != "1 2" {
				t.Errorf("%s: %q", name, told)
			}
		}
	}
}

// numbersUpTo is the numbers from 1 on as live tells them.
func numbersUpTo(n int, but ...int) string {
	var all []string
	for h := 1; h <= n; h++ {
		if !slices.Contains(but, h) {
			all = append(all, fmt.Sprint(h))
		}
	}
	return orDash(strings.Join(all, " "))
}

func TestOpenMost(t *testing.T) {
	var text strings.Builder
	var want []string
	for h := 1; h <= 64; h++ {
		text.WriteString("live\nopen UTF-8 ASCII\n")
		want = append(want, numbersUpTo(h-1), fmt.Sprint(h))
	}
	text.WriteString("open UTF-8 ASCII\nlive\nopen UTF-8 ASCII\nopen x UTF-8\nopen UTF-8 UTF-8//x\nall UTF-8 ASCII 41\nconvert 64 41 9\nconvert 65 41 9\n")
	want = append(want, "error 8", numbersUpTo(64), "error 8", "error 20", "error 3", "41 0 0", "1 41 0 0", "0 - 0 7")
	text.WriteString("close 33\nlive\nopen UTF-8 ASCII\nopen UTF-8 ASCII\nclose 1\nclose 64\nclose 64\nopen UTF-8 ASCII\nlive\n")
	want = append(want, "ok", numbersUpTo(64, 33), "33", "error 8", "ok", "ok", "error 7", "1", numbersUpTo(63))
	runs(t, text.String(), want...)
}

// Promise 26.2: close and live.

func TestClose(t *testing.T) {
	runs(t, "close 1", "error 7")
	runs(t, "close 0\nclose 65\nclose 999999999\nclose 000000000", "error 7", "error 7", "error 7", "error 7")
	runs(t, "open UTF-8 ASCII\nclose 2\nclose 0\nlive\nclose 1\nlive\nclose 1\nconvert 1 41 9\nreset 1 9\nopen UTF-8 ASCII\nclose 1\nlive",
		"1", "error 7", "error 7", "1", "ok", "-", "error 7", "0 - 0 7", "0 - 0 7", "1", "ok", "-")
	runs(t, "open UTF-8 ASCII\nopen UTF-8 ASCII\nopen UTF-8 ASCII\nclose 2\nlive\nclose 1\nlive\nopen UTF-8 ASCII\nlive\nclose 3\nlive\nclose 1\nlive",
		"1", "2", "3", "ok", "1 3", "ok", "3", "1", "1 3", "ok", "1", "ok", "-")
}

func TestLive(t *testing.T) {
	runs(t, "live", "-")
	runs(t, "live\nlive", "-", "-")
	runs(t, "open UTF-8 ASCII\nlive\nlive", "1", "1", "1")
	for n := range 65 {
		want := []string{}
		for h := 1; h <= n; h++ {
			want = append(want, fmt.Sprint(h))
		}
		runs(t, strings.Repeat("open UTF-8 ASCII\n", n)+"live", append(want, numbersUpTo(n))...)
	}
}

// Promise 26.2: convert and reset.

func TestConvertByEye(t *testing.T) {
	for _, c := range []struct {
		text string
		want []string
	}{
		{"open ISO-8859-1 UTF-8\nconvert 1 41C3A4C3 9\nconvert 1 C3A4 9\nconvert 1 - 0\nconvert 1 - 9", []string{"1", "3 41E4 0 1", "2 E4 0 0", "0 - 0 0", "0 - 0 0"}},
		{"open ISO-8859-1 UTF-8\nconvert 1 41C3A4 0\nconvert 1 41C3A4 1\nconvert 1 C3A4 0\nconvert 1 C3A4 1\nconvert 1 c3a4 2", []string{"1", "0 - 0 4", "1 41 0 4", "0 - 0 4", "2 E4 0 0", "2 E4 0 0"}},
		{"open ISO-8859-1 UTF-8\nconvert 1 41E282AC42 9\nconvert 1 E282AC42 9\nconvert 1 42FF 9\nconvert 1 FF 0", []string{"1", "1 41 0 10", "0 - 0 10", "1 42 0 10", "0 - 0 10"}},
		{"open ISO-8859-1//TRANSLIT UTF-8\nconvert 1 41E282AC42 9\nconvert 1 E282AC 2\nconvert 1 E282AC 3\nconvert 1 E282ACE282ACE282AC 99\nconvert 1 E4B880 9", []string{"1", "5 4145555242 1 0", "0 - 0 4", "3 455552 1 0", "9 455552455552455552 3 0", "0 - 0 10"}},
		{"open ISO-8859-1//IGNORE UTF-8\nconvert 1 41E282AC42 9\nconvert 1 42 9\nconvert 1 E282AC42 0\nconvert 1 - 0\nconvert 1 - 0\nconvert 1 FF 0\nreset 1 0", []string{"1", "5 4142 0 10", "1 42 0 0", "3 - 0 4", "0 - 0 10", "0 - 0 0", "1 - 0 10", "0 - 0 0"}},
		{"open ISO-8859-1//IGNORE UTF-8\nconvert 1 E282ACC3 9\nreset 1 9\nreset 1 9", []string{"1", "3 - 0 1", "0 - 0 10", "0 - 0 0"}},
		{"open ISO-2022-JP UTF-8\nconvert 1 E38182 4\nconvert 1 E38182 5\nreset 1 2\nreset 1 3\nreset 1 0\nconvert 1 E38182 9", []string{"1", "0 - 0 4", "3 1B24422422 0 0", "0 - 0 4", "0 1B2842 0 0", "0 - 0 0", "3 1B24422422 0 0"}},
		{"open ASCII//TRANSLIT CP1258\nconvert 1 E2 0\nreset 1 0\nreset 1 1\nreset 1 1", []string{"1", "1 - 0 0", "0 - 0 4", "0 61 1 0", "0 - 0 0"}},
		{"open ASCII CP1258\nconvert 1 E2 0\nreset 1 9\nreset 1 0\nconvert 1 41 9\nconvert 1 EC 9", []string{"1", "1 - 0 0", "0 - 0 10", "0 - 0 10", "0 - 0 10", "0 - 0 10"}},
		{"open ASCII//IGNORE CP1258\nconvert 1 E2 0\nreset 1 0\nreset 1 0", []string{"1", "1 - 0 0", "0 - 0 10", "0 - 0 0"}},
		{"convert 1 41 9\nreset 1 9\nconvert 0 - 0\nreset 0 0", []string{"0 - 0 7", "0 - 0 7", "0 - 0 7", "0 - 0 7"}},
		{"open UTF-16 UTF-8\nopen UTF-8 UTF-16\nconvert 1 41 9\nconvert 1 41 9\nconvert 2 FFFE4100 9\nreset 1 0\nconvert 1 41 9\nreset 2 0\nconvert 2 0041 9", []string{"1", "2", "1 FEFF0041 0 0", "1 0041 0 0", "4 41 0 0", "0 - 0 0", "1 0041 0 0", "0 - 0 0", "2 41 0 0"}},
	} {
		runs(t, c.text, c.want...)
		runs(t, c.text+"\n", c.want...)
		holds(t, newModel(), c.text)
	}
}

// TestRooms has a text under every room.
func TestRooms(t *testing.T) {
	var text strings.Builder
	for room := range 30 {
		fmt.Fprintf(&text, "open ISO-2022-KR UTF-8\nconvert 1 41EAB08042EAB08143 %d\nreset 1 %d\nreset 1 9\nclose 1\n", room, room%3)
	}
	told := holds(t, newModel(), text.String())
	for room := range 30 {
		took, out, _, err := asDone(t, told[room*5+1])
		if len(out) > room || (err == api.Full) != (took < 9) || (took == 9) != (room >= 15) {
			t.Errorf("room for %d: %s", room, told[room*5+1])
		}
	}
}

// asDone is what a line of convert or reset tells.
func asDone(t *testing.T, line string) (took int, out []byte, odd int, err api.Errno) {
	t.Helper()
	words := strings.Split(line, " ")
	if len(words) != 4 || !numberIs.MatchString(words[0]) || !bytesAre.MatchString(words[1]) || !numberIs.MatchString(words[2]) || !numberIs.MatchString(words[3]) {
		t.Fatalf("%q is not what convert or reset tells", line)
	}
	return numberOf(words[0]), bytesOf(words[1]), numberOf(words[2]), api.Errno(numberOf(words[3]))
}

// Promise 26.2: all.

func TestAllByEye(t *testing.T) {
	for line, want := range map[string]string{
		"all ISO-2022-JP UTF-8 E38182":                   "1B244224221B2842 0 0",
		"all ISO-2022-JP UTF-8 -":                        "- 0 0",
		"all UTF-8 UTF-8 -":                              "- 0 0",
		"all UTF-16 UTF-8 -":                             "- 0 0",
		"all UTF-8 UTF-8 00":                             "00 0 0",
		"all UTF-8 UTF-8 41FF42":                         "41 0 10",
		"all UTF-8//IGNORE UTF-8 41FF42":                 "4142 0 10",
		"all UTF-8//IGNORE UTF-8 FF":                     "- 0 10",
		"all UTF-8//IGNORE UTF-8 41FF42C3":               "4142 0 1",
		"all UTF-8 UTF-8 C3":                             "- 0 1",
		"all UTF-8 UTF-8 41C3":                           "41 0 1",
		"all ISO-8859-1 UTF-8 41E282AC":                  "41 0 10",
		"all ISO-8859-1//TRANSLIT UTF-8 41E282AC":        "41455552 1 0",
		"all ISO-8859-1//TRANSLIT UTF-8 E282ACE282AC":    "455552455552 2 0",
		"all ASCII//TRANSLIT UTF-8 e4b880":               "- 0 10",
		"all ASCII//translit//ignore UTF-8 41e4b880C3A4": "416165 1 10",
		"all UTF-8 ASCII//IGNORE 41FF":                   "41 0 10",
		"all UTF-8 CP1258 41CC":                          "C380 0 0",
		"all UTF-8 CP1258 41":                            "41 0 0",
		"all ASCII CP1258 C2":                            "- 0 10",
		"all ASCII//TRANSLIT CP1258 C2":                  "41 1 0",
		"all ASCII//IGNORE CP1258 C2":                    "- 0 10",
		"all utf-7 utf-8 c3a4":                           "2B414F512D 0 0",
		"all x UTF-8 41":                                 "- 0 20",
		"all UTF-8 x 41":                                 "- 0 20",
		"all UTF-8 UTF-8//x 41":                          "- 0 3",
	} {
		doesNothing(t, line, want)
	}
	for _, c := range refused {
		doesNothing(t, "all "+c.name+" UTF-8 41", "- 0 "+c.err)
		doesNothing(t, "all UTF-8 "+c.name+" -", "- 0 "+c.err)
	}
}

// Promise 26.2: name.

func TestName(t *testing.T) {
	for _, c := range []struct{ n, want string }{{"1", "ASCII"}, {"2", "UTF-8"}, {"11", "UTF-7"}, {"12", "-"}, {"20", "-"}, {"21", "ISO-8859-1"}, {"32", "-"}, {"65", "MACINTOSH"}, {"88", "ISO-2022-KR"}, {"89", "-"}, {"0", "-"}} {
		runs(t, "name "+c.n, c.want)
	}
	var text strings.Builder
	var want []string
	for n := range 3000 {
		fmt.Fprintf(&text, "name %d\n", n)
		told := "-"
		if list := kindNames()[n]; list != nil {
			told = list[0]
		}
		want = append(want, told)
	}
	runs(t, text.String(), want...)
	for _, n := range []string{"257", "258", "65537", "65538", "16777218", "999999999", "100000002", "000000258"} {
		runs(t, "name "+n, "-")
	}
}

// Promise 26.2: texts of many lines of all sorts, against the calls that the table names.

// someLine is a line of any sort, well formed or not.
func someLine(r *rand.Rand) string {
	word := func() string {
		switch r.IntN(12) {
		case 0:
			return noNumbers[r.IntN(len(noNumbers))]
		case 1:
			return noBytes[r.IntN(len(noBytes))]
		case 2:
			return refused[r.IntN(len(refused)-1)].name
		case 3:
			return every[r.IntN(len(every))].line
		case 4:
			return "-"
		case 5:
			return first(kinds()[r.IntN(len(kinds()))])
		default:
			return fmt.Sprint(r.IntN(12))
		}
	}
	name := func() string {
		list := kindNames()[kinds()[r.IntN(len(kinds()))]]
		return list[r.IntN(len(list))] + []string{"", "", "//TRANSLIT", "//IGNORE", "//ignore//translit"}[r.IntN(5)]
	}
	line := []string{}
	switch r.IntN(14) {
	case 0, 1:
		line = []string{"open", name(), name()}
	case 2, 3, 4, 5:
		line = []string{"convert", fmt.Sprint(r.IntN(8)), inDigits(someBytes(r, r.IntN(12))), fmt.Sprint(r.IntN(25))}
	case 6:
		line = []string{"reset", fmt.Sprint(r.IntN(8)), fmt.Sprint(r.IntN(9))}
	case 7:
		line = []string{"close", fmt.Sprint(r.IntN(10))}
	case 8:
		line = []string{"live"}
	case 9, 10:
		line = []string{"all", name(), name(), inDigits(someBytes(r, r.IntN(12)))}
	case 11:
		line = []string{"name", fmt.Sprint(r.IntN(100))}
	case 12:
		return strings.Repeat(" ", r.IntN(4))
	default:
		for range r.IntN(5) {
			line = append(line, word())
		}
	}
	if len(line) > 0 && r.IntN(10) == 0 {
		line[r.IntN(len(line))] = word()
	}
	if r.IntN(20) == 0 {
		line = append(line, word())
	}
	return strings.Repeat(" ", r.IntN(2)*r.IntN(3)) + strings.Join(line, strings.Repeat(" ", 1+r.IntN(2)*r.IntN(3))) + strings.Repeat(" ", r.IntN(2)*r.IntN(3))
}

// someLines is a text of such lines.
func someLines(r *rand.Rand, n int) string {
	var all []string
	for range n {
		all = append(all, someLine(r))
	}
	text := strings.Join(all, "\n") + strings.Repeat("\n", r.IntN(3))
	return text[:min(len(text), api.MaxText)]
}

func TestManyLines(t *testing.T) {
	for seed := range uint64(40) {
		t.Run(fmt.Sprint(seed), func(t *testing.T) {
			t.Parallel()
			r := rand.New(rand.NewPCG(26, 100+seed))
			for range 8 {
				holds(t, newProgram(), someLines(r, 1+r.IntN(600)))
			}
		})
	}
}

// Promise 26.3: all and name tell the same alone as behind any lines.

func TestAloneAndBehind(t *testing.T) {
	r := rand.New(rand.NewPCG(26, 200))
	asked := 0
	for range 150 {
		ahead := someLines(r, r.IntN(40))
		behind := someLines(r, 30)
		told := script.Run(ahead)
		if !strings.HasPrefix(script.Run(ahead+"\n"+behind), told) {
			t.Fatalf("%q tells otherwise with lines behind it", ahead)
		}
		for line := range strings.SplitSeq(behind, "\n") {
			words := strings.Fields(line)
			if len(words) == 0 || words[0] != "all" && words[0] != "name" {
				continue
			}
			asked++
			alone := script.Run(line)
			if got := script.Run(ahead + "\n" + line); got != told+alone {
				t.Fatalf("%q tells %q alone, but %q behind %q", line, alone, got[len(told):], ahead)
			}
		}
	}
	if asked < 300 {
		t.Errorf("only %d lines were asked", asked)
	}
}

// TestRunsApart has several runs, which share nothing.
func TestRunsApart(t *testing.T) {
	runs(t, "open UTF-8 ASCII\nlive", "1", "1")
	runs(t, "live", "-")
	runs(t, "open UTF-8 ASCII\nlive", "1", "1")
	runs(t, "close 1", "error 7")
	runs(t, "convert 1 41 9", "0 - 0 7")
	for range 3 {
		runs(t, ahead+tail, append(aheadTells(), tailTells()...)...)
		runs(t, ahead, aheadTells()...)
		runs(t, strings.Repeat("open UTF-8 ASCII\n", 64)+"open UTF-8 ASCII", append(strings.Fields(numbersUpTo(64)), "error 8")...)
	}
}

// TestRunsAtOnce has runs at the same time.
func TestRunsAtOnce(t *testing.T) {
	var texts, want []string
	r := rand.New(rand.NewPCG(26, 300))
	for range 16 {
		text := someLines(r, 300)
		texts = append(texts, text)
		want = append(want, script.Run(text))
	}
	var all sync.WaitGroup
	for i, text := range texts {
		for range 4 {
			all.Go(func() {
				if got := script.Run(text); got != want[i] {
					t.Errorf("at once %.200q tells %.200q, alone %.200q", text, got, want[i])
				}
			})
		}
	}
	all.Wait()
}

// R1: nothing panics, whatever a text is.

func TestAnyText(t *testing.T) {
	r := rand.New(rand.NewPCG(26, 400))
	pieces := []string{" ", " ", " ", "\n", "open", "convert", "reset", "close", "live", "all", "name", "1", "2", "41", "-", "0", "9", "UTF-8", "CP1258", "ISO-2022-KR//IGNORE", "\xFF", "\t", "\x00", "//", "999999999", "FFFFFFFF"}
	for range 3000 {
		var text strings.Builder
		for range r.IntN(60) {
			text.WriteString(pieces[r.IntN(len(pieces))])
		}
		holds(t, newProgram(), text.String())
		holds(t, newProgram(), string(someBytes(r, r.IntN(40))))
	}
}

// The chapter's examples.

func TestExamples(t *testing.T) {
	runs(t, "open ISO-8859-1 UTF-8\nconvert 1 41C3A4C3 9\nclose 1\nlive", "1", "3 41E4 0 1", "ok", "-")
	runs(t, "all ISO-2022-JP UTF-8 E38182", "1B244224221B2842 0 0")
	runs(t, "foo\nclose x\nclose 7\nname 2", "error 70", "error 3", "error 7", "UTF-8")
}
