package script

import (
	"strconv"
	"strings"

	"dragoman/api"
	"dragoman/engine"
	"dragoman/names"
)

// session is what the lines of one text share.
type session struct {
	table *engine.Table
}

// command does a line by the words behind its first one, and is what that tells. Beside an error the line tells the error alone.
type command func(*session, []string) (string, api.Errno)

// commands is what each first word does.
func commands() map[string]command {
	return map[string]command{
		"open":    (*session).open,
		"convert": (*session).convert,
		"reset":   (*session).reset,
		"close":   (*session).close,
		"live":    (*session).live,
		"all":     (*session).all,
		"name":    (*session).name,
	}
}

// tell does a line, and is what it tells.
func (s *session) tell(known map[string]command, words []string) string {
	do, ok := known[words[0]]
	if !ok {
		return api.ErrCommand.Error()
	}
	told, err := do(s, words[1:])
	if err != api.OK {
		return err.Error()
	}
	return told
}

func (s *session) open(words []string) (string, api.Errno) {
	a, err := read(words, asText, asText)
	if err != api.OK {
		return "", err
	}
	h, err := s.table.Open(a.texts[0], a.texts[1])
	return strconv.Itoa(h), err
}

func (s *session) convert(words []string) (string, api.Errno) {
	a, err := read(words, asNumber, asBytes, asNumber)
	if err != api.OK {
		return "", err
	}
	return done(s.table.Convert(a.numbers[0], a.bytes, a.numbers[1])), api.OK
}

func (s *session) reset(words []string) (string, api.Errno) {
	a, err := read(words, asNumber, asNumber)
	if err != api.OK {
		return "", err
	}
	return done(s.table.Reset(a.numbers[0], a.numbers[1])), api.OK
}

func (s *session) close(words []string) (string, api.Errno) {
	a, err := read(words, asNumber)
	if err != api.OK {
		return "", err
	}
	return "ok", s.table.Close(a.numbers[0])
}

func (s *session) live(words []string) (string, api.Errno) {
	if _, err := read(words); err != api.OK {
		return "", err
	}
	return orNothing(inWords(s.table.Live()...)), api.OK
}

func (s *session) all(words []string) (string, api.Errno) {
	a, err := read(words, asText, asText, asBytes)
	if err != api.OK {
		return "", err
	}
	out, odd, wrong := engine.All(a.texts[0], a.texts[1], a.bytes)
	return Hex(out) + blank + inWords(odd, int(wrong)), api.OK
}

func (s *session) name(words []string) (string, api.Errno) {
	a, err := read(words, asNumber)
	if err != api.OK {
		return "", err
	}
	return orNothing(names.Name(a.numbers[0])), api.OK
}

// done is what a call has done, as it is told.
func done(d engine.Done) string {
	return inWords(d.Took) + blank + Hex(d.Out) + blank + inWords(d.Odd, int(d.Err))
}

// inWords is numbers, with a blank between each two.
func inWords(l ...int) string {
	var words []string
	for _, n := range l {
		words = append(words, strconv.Itoa(n))
	}
	return strings.Join(words, blank)
}

// orNothing is a text, or what stands for one that is empty.
func orNothing(s string) string {
	if s == "" {
		return nothing
	}
	return s
}
