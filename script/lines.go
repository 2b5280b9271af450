package script

import (
	"iter"
	"strings"

	"dragoman/api"
)

// What stands between words, and what stands for no bytes, no numbers and no name.
const (
	blank   = " "
	nothing = "-"
)

// mostDigits is how many digits a number may have.
const mostDigits = 9

// lines goes through the lines of a text that have words, each as its words.
func lines(text string) iter.Seq[[]string] {
	return func(yield func([]string) bool) {
		rest, more := text, true
		for more {
			var line string
			line, rest, more = strings.Cut(rest, "\n")
			if words := split(line); len(words) > 0 && !yield(words) {
				return
			}
		}
	}
}

// split is the words of a line. The library's own fields end at more than blanks.
func split(line string) []string {
	var words []string
	for _, word := range strings.Split(line, blank) {
		if word != "" {
			words = append(words, word)
		}
	}
	return words
}

// field is what a word behind a line's first one is read as.
type field int

const (
	asText field = iota
	asNumber
	asBytes
)

// arguments is the words behind a line's first one as they are read, those of one kind in order.
type arguments struct {
	texts   []string
	numbers []int
	bytes   []byte
}

// read reads words as fields: ErrCommand, if there are more or fewer; ErrField, if one is not such a field.
func read(words []string, fields ...field) (arguments, api.Errno) {
	if len(words) != len(fields) {
		return arguments{}, api.ErrCommand
	}
	var a arguments
	for i, word := range words {
		if !a.add(word, fields[i]) {
			return arguments{}, api.ErrField
		}
	}
	return a, api.OK
}

// add reads one more word, and tells whether it is such a field.
func (a *arguments) add(word string, f field) bool {
	ok := true
	switch f {
	case asText:
		a.texts = append(a.texts, word)
	case asNumber:
		var n int
		n, ok = number(word)
		a.numbers = append(a.numbers, n)
	case asBytes:
		a.bytes, ok = Bytes(word)
	}
	return ok
}

// number is the number that a word is. The library's own takes signs and any number of digits.
func number(word string) (int, bool) {
	if word == "" || len(word) > mostDigits {
		return 0, false
	}
	n := 0
	for i := range len(word) {
		d := word[i]
		if d < '0' || d > '9' {
			return 0, false
		}
		n = n*10 + int(d-'0')
	}
	return n, true
}
