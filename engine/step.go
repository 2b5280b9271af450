package engine

import (
	"errors"

	"dragoman/api"
	"dragoman/codec"
)

// What a step comes to, if it is not done.
var (
	errMore    = errors.New("the input ends within a unit")
	errIllegal = errors.New("the input is no unit")
	errNoPlace = errors.New("a scalar has no place")
	errFull    = errors.New("there is no room for the step")
)

// number is the number by which such an error is told.
func number(err error) api.Errno {
	switch {
	case errors.Is(err, errMore):
		return api.More
	case errors.Is(err, errFull):
		return api.Full
	}
	// A caller is not told whether it was the bytes or a scalar.
	return api.Illegal
}

// conversion is an open one.
type conversion struct {
	from, to         int
	reading, writing api.State
	translit, ignore bool
	// passed is whether something was passed over since that was told last.
	passed bool
}

// move is what a step would change. It stands apart from the conversion till the whole step is known to be done.
type move struct {
	took             int
	text             string
	odd              int
	passed           bool
	reading, writing api.State
}

// step is what the unit at the front of some bytes comes to. Beside errIllegal the move passes over the unit.
func (c *conversion) step(front []byte, room int) (move, error) {
	g := codec.Get(c.from, c.reading, front)
	switch g.Err {
	case api.OK:
	case api.More:
		return move{}, errMore
	default:
		return move{took: g.N, passed: true, reading: g.S, writing: c.writing}, errIllegal
	}
	both := [...]rune{g.A, g.B}
	m, err := c.write(both[:g.K])
	if err != nil {
		return move{}, err
	}
	m.took = g.N
	m.reading = g.S
	return m, m.within(room)
}

// finish is what puts out the scalar that is held, and what leads back behind it.
func (c *conversion) finish(room int) (move, error) {
	var held []rune
	if u, ok := codec.Drain(c.from, c.reading); ok {
		held = []rune{u}
	}
	m, err := c.write(held)
	if err != nil {
		return move{}, err
	}
	// Writing comes only to states of the kind, of which End refuses none.
	last, s, _ := codec.End(c.to, m.writing)
	m.text += last
	m.writing = s
	return m, m.within(room)
}

// write is what puts out some scalars, all of them or none.
func (c *conversion) write(l []rune) (move, error) {
	m := move{writing: c.writing}
	for _, u := range l {
		p, odd := c.place(m.writing, u)
		switch {
		case p.Err == api.OK:
			m.text += p.Bytes
			m.writing = p.S
		case c.ignore:
			m.passed = true
		default:
			return move{}, errNoPlace
		}
		if odd {
			m.odd++
		}
	}
	return m, nil
}

// place is a scalar's bytes, and whether they are those of what stands in its place.
func (c *conversion) place(s api.State, u rune) (api.Put, bool) {
	if c.translit {
		return codec.Trans(c.to, s, u)
	}
	return codec.Set(c.to, s, u), false
}

// within is nil, if what is written has room.
func (m move) within(room int) error {
	if len(m.text) > room {
		return errFull
	}
	return nil
}

// commit makes a step's change.
func (c *conversion) commit(m move) {
	c.reading = m.reading
	c.writing = m.writing
	c.passed = c.passed || m.passed
}

// tell tells whether something was passed over, and once only.
func (c *conversion) tell() api.Errno {
	if !c.passed {
		return api.OK
	}
	c.passed = false
	return api.Illegal
}
