package engine_test

import (
	"bytes"
	"slices"
	"testing"

	"dragoman/api"
	"dragoman/codec"
	"dragoman/engine"
	"dragoman/names"
	"dragoman/translit"
)

// conversion is the chapter's word, as a value: a call answers the one behind it.
type conversion struct {
	from, to         int
	reading, writing api.State
	translit, ignore bool
	passed           bool
}

// written is what some scalars come to, all of them or none.
type written struct {
	text   string
	odd    int
	passed bool
	state  api.State
	ok     bool
}

// model is a table of conversions, each at its number.
type model struct {
	at [api.MaxDescs + 1]*conversion
}

// write writes scalars as a step does.
func (c conversion) write(l ...rune) written {
	w := written{state: c.writing, ok: true}
	for _, u := range l {
		p := codec.Set(c.to, w.state, u)
		if p.Err == api.None && c.translit {
			for _, candidate := range translit.Candidates(u) {
				if q := codec.Write(c.to, w.state, []rune(candidate)); q.Err == api.OK {
					p = q
					w.odd++
					break
				}
			}
		}
		switch p.Err {
		case api.OK:
			w.text += p.Bytes
			w.state = p.S
		case api.None:
			w.passed = true
		default:
			panic(p.Err)
		}
	}
	if w.passed && !c.ignore {
		return written{}
	}
	return w
}

// told is what a call tells that has taken all, and the conversion behind that.
func (c conversion) told() (conversion, api.Errno) {
	if c.passed {
		c.passed = false
		return c, api.Illegal
	}
	return c, api.OK
}

// convert is promise 25.2, of an open conversion.
func (c conversion) convert(in []byte, room int) (conversion, engine.Done) {
	var d engine.Done
	if len(in) > api.MaxIn {
		return c, engine.Done{Err: api.ErrLong}
	}
	if room < 0 {
		return c, engine.Done{Err: api.ErrRange}
	}
	for d.Took < len(in) {
		g := codec.Get(c.from, c.reading, in[d.Took:])
		if g.Err == api.Illegal && c.ignore {
			d.Took += g.N
			c.reading = g.S
			c.passed = true
			continue
		}
		if g.Err != api.OK {
			d.Err = g.Err
			return c, d
		}
		w := c.write([]rune{g.A, g.B}[:g.K]...)
		if !w.ok {
			d.Err = api.Illegal
			return c, d
		}
		if len(d.Out)+len(w.text) > room {
			d.Err = api.Full
			return c, d
		}
		d.Took += g.N
		d.Out = append(d.Out, w.text...)
		d.Odd += w.odd
		c.passed = c.passed || w.passed
		c.reading, c.writing = g.S, w.state
	}
	c, d.Err = c.told()
	return c, d
}

// reset is promise 25.3, of an open conversion.
func (c conversion) reset(room int) (conversion, engine.Done) {
	if room < 0 {
		return c, engine.Done{Err: api.ErrRange}
	}
	w := c.write()
	if u, ok := codec.Drain(c.from, c.reading); ok {
		w = c.write(u)
	}
	if !w.ok {
		return c, engine.Done{Err: api.Illegal}
	}
	last, s, e := codec.End(c.to, w.state)
	if e != api.OK {
		panic(e)
	}
	if len(w.text)+len(last) > room {
		return c, engine.Done{Err: api.Full}
	}
	c.reading, c.writing = api.State{}, s
	c.passed = c.passed || w.passed
	c, told := c.told()
	return c, engine.Done{Out: []byte(w.text + last), Odd: w.odd, Err: told}
}

// modelOpen is a new conversion by its names.
func modelOpen(to, from string) (conversion, api.Errno) {
	target, e := names.Parse(to)
	if e != api.OK {
		return conversion{}, e
	}
	source, e := names.Parse(from)
	if e != api.OK {
		return conversion{}, e
	}
	return conversion{from: source.Kind, to: target.Kind, translit: target.Translit, ignore: target.Ignore}, api.OK
}

// modelAll is promise 25.4.
func modelAll(to, from string, in []byte) ([]byte, int, api.Errno) {
	c, e := modelOpen(to, from)
	if e != api.OK {
		return nil, 0, e
	}
	if len(in) > api.MaxIn {
		return nil, 0, api.ErrLong
	}
	c, d := c.convert(in, enough)
	if d.Took < len(in) {
		return d.Out, d.Odd, d.Err
	}
	_, last := c.reset(enough)
	e = d.Err
	if e == api.OK {
		e = last.Err
	}
	return slices.Concat(d.Out, last.Out), d.Odd + last.Odd, e
}

// open is promise 25.1.
func (m *model) open(to, from string) (int, api.Errno) {
	c, e := modelOpen(to, from)
	if e != api.OK {
		return 0, e
	}
	for h := 1; h < len(m.at); h++ {
		if m.at[h] == nil {
			m.at[h] = &c
			return h, api.OK
		}
	}
	return 0, api.ErrLong
}

// find is an open conversion, or nil.
func (m *model) find(h int) *conversion {
	if h < 1 || h >= len(m.at) {
		return nil
	}
	return m.at[h]
}

func (m *model) close(h int) api.Errno {
	if m.find(h) == nil {
		return api.ErrState
	}
	m.at[h] = nil
	return api.OK
}

func (m *model) live() []int {
	var all []int
	for h, c := range m.at {
		if c != nil {
			all = append(all, h)
		}
	}
	return all
}

func (m *model) convert(h int, in []byte, room int) engine.Done {
	c := m.find(h)
	if c == nil {
		return engine.Done{Err: api.ErrState}
	}
	behind, d := c.convert(in, room)
	*c = behind
	return d
}

func (m *model) reset(h int, room int) engine.Done {
	c := m.find(h)
	if c == nil {
		return engine.Done{Err: api.ErrState}
	}
	behind, d := c.reset(room)
	*c = behind
	return d
}

// pair is a table, and the model that every call of it is held against.
type pair struct {
	*testing.T
	table *engine.Table
	model *model
}

func newPair(t *testing.T) *pair {
	return &pair{t, engine.New(), &model{}}
}

// same tells whether both calls have done the same.
func same(a, b engine.Done) bool {
	return a.Took == b.Took && bytes.Equal(a.Out, b.Out) && a.Odd == b.Odd && a.Err == b.Err
}

func (p *pair) open(to, from string) (int, api.Errno) {
	p.Helper()
	h, e := p.table.Open(to, from)
	if want, wrong := p.model.open(to, from); h != want || e != wrong {
		p.Fatalf("Open(%.80q, %.80q): %d, %d, want %d, %d", to, from, h, e, want, wrong)
	}
	return h, e
}

// must opens what no error refuses.
func (p *pair) must(to, from string) int {
	p.Helper()
	h, e := p.open(to, from)
	if e != api.OK {
		p.Fatalf("Open(%q, %q): error %d", to, from, e)
	}
	return h
}

func (p *pair) close(h int) api.Errno {
	p.Helper()
	e := p.table.Close(h)
	if want := p.model.close(h); e != want {
		p.Fatalf("Close(%d): %d, want %d", h, e, want)
	}
	return e
}

func (p *pair) live() []int {
	p.Helper()
	l := p.table.Live()
	if want := p.model.live(); !slices.Equal(l, want) {
		p.Fatalf("Live: %d, want %d", l, want)
	}
	return l
}

// convert holds a call against the model's, and against the bounds of promise W5.
func (p *pair) convert(h int, in []byte, room int) engine.Done {
	p.Helper()
	d := p.table.Convert(h, in, room)
	if want := p.model.convert(h, in, room); !same(d, want) {
		p.Fatalf("Convert(%d, %.80X, %d): %+v, want %+v", h, in, room, d, want)
	}
	if d.Took < 0 || d.Took > len(in) || len(d.Out) > max(room, 0) || d.Err == api.More && len(in)-d.Took >= 4 {
		p.Fatalf("Convert(%d, %.80X, %d): %+v: beyond the bounds", h, in, room, d)
	}
	return d
}

func (p *pair) reset(h int, room int) engine.Done {
	p.Helper()
	d := p.table.Reset(h, room)
	if want := p.model.reset(h, room); !same(d, want) {
		p.Fatalf("Reset(%d, %d): %+v, want %+v", h, room, d, want)
	}
	if d.Took != 0 || len(d.Out) > max(room, 0) {
		p.Fatalf("Reset(%d, %d): %+v: beyond the bounds", h, room, d)
	}
	return d
}

// all holds a whole text's conversion against the model's.
func (p *pair) all(to, from string, in []byte) ([]byte, int, api.Errno) {
	p.Helper()
	b, odd, e := engine.All(to, from, in)
	if want, more, wrong := modelAll(to, from, in); !bytes.Equal(b, want) || odd != more || e != wrong {
		p.Fatalf("All(%.80q, %.80q, %.80X): %X, %d, %d, want %X, %d, %d", to, from, in, b, odd, e, want, more, wrong)
	}
	return b, odd, e
}
