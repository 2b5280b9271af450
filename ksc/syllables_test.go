package ksc_test

import (
	"math"
	"testing"

	"dragoman/ksc"
)

// parts is a syllable's first, middle and last one.
type parts struct{ first, middle, last int }

// allParts is the parts of every syllable in the order of their numbers, counted up one by one.
func allParts() []parts {
	var l []parts
	for first := 0; first <= 18; first++ {
		for middle := 0; middle <= 20; middle++ {
			for last := 0; last <= 27; last++ {
				l = append(l, parts{first, middle, last})
			}
		}
	}
	return l
}

func checkSyllable(t *testing.T, p parts, want rune) {
	t.Helper()
	if u, ok := ksc.Syllable(p.first, p.middle, p.last); u != want || !ok {
		t.Errorf("Syllable(%v) = %04X, %v, want %04X", p, u, ok, want)
	}
	checkParts(t, want, p)
}

func checkParts(t *testing.T, u rune, want parts) {
	t.Helper()
	if a, b, c, ok := ksc.Parts(u); (parts{a, b, c}) != want || !ok {
		t.Errorf("Parts(%04X) = %d, %d, %d, %v, want %v", u, a, b, c, ok, want)
	}
}

func checkNoSyllable(t *testing.T, p parts) {
	t.Helper()
	if u, ok := ksc.Syllable(p.first, p.middle, p.last); u != 0 || ok {
		t.Errorf("Syllable(%v) = %04X, %v", p, u, ok)
	}
}

func checkNoParts(t *testing.T, u rune) {
	t.Helper()
	if a, b, c, ok := ksc.Parts(u); a != 0 || b != 0 || c != 0 || ok {
		t.Errorf("Parts(%X) = %d, %d, %d, %v", u, a, b, c, ok)
	}
}

// farParts are numbers far outside, such as become a part if some of their bits are lost, and such as make a sum wrap round.
func farParts() []int {
	l := farNumbers()
	for _, times := range []int{588, 28} {
		for _, n := range []int{math.MinInt, math.MinInt32, math.MaxInt32, math.MaxInt} {
			for d := -2; d <= 2; d++ {
				l = append(l, n/times+d)
			}
		}
	}
	return l
}

// Promise 16.3: syllables.

// TestSomeSyllables: syllables as one works them out by hand, at the ends of each part and beside them.
func TestSomeSyllables(t *testing.T) {
	for u, p := range map[rune]parts{
		0xAC00: {0, 0, 0},
		0xAC01: {0, 0, 1},
		0xAC1B: {0, 0, 27},
		0xAC1C: {0, 1, 0},
		0xAC1D: {0, 1, 1},
		0xAE00: {0, 18, 8},
		0xAE4B: {0, 20, 27},
		0xAE4C: {1, 0, 0},
		0xB098: {2, 0, 0},
		0xD557: {17, 20, 27},
		0xD558: {18, 0, 0},
		0xD55C: {18, 0, 4},
		0xD788: {18, 20, 0},
		0xD7A2: {18, 20, 26},
		0xD7A3: {18, 20, 27},
	} {
		checkSyllable(t, p, u)
	}
}

// TestEverySyllable: all parts, counted up, are the numbers from AC00 to D7A3 in their order.
func TestEverySyllable(t *testing.T) {
	u := rune(0xAC00)
	for _, p := range allParts() {
		checkSyllable(t, p, u)
		if sum := 0xAC00 + p.first*588 + p.middle*28 + p.last; sum != int(u) {
			t.Fatalf("%v is syllable %04X by counting, %04X by its sum", p, u, sum)
		}
		u++
	}
	if u != 0xD7A4 {
		t.Errorf("the last syllable is ahead of %04X", u)
	}
}

// TestPartsAround: all triples of numbers around the parts, so that no part's place is taken by another, and no part makes up for another.
func TestPartsAround(t *testing.T) {
	for first := -30; first <= 50; first++ {
		for middle := -30; middle <= 50; middle++ {
			for last := -60; last <= 90; last++ {
				p := parts{first, middle, last}
				if 0 <= first && first <= 18 && 0 <= middle && middle <= 20 && 0 <= last && last <= 27 {
					checkSyllable(t, p, rune(0xAC00+first*588+middle*28+last))
				} else {
					checkNoSyllable(t, p)
				}
			}
		}
	}
}

// TestOneWrongPart: one part just outside, beside every right choice of the two others.
func TestOneWrongPart(t *testing.T) {
	for _, p := range allParts() {
		for _, wrong := range []int{-1, 19, 20, 21, 588} {
			checkNoSyllable(t, parts{wrong, p.middle, p.last})
		}
		for _, wrong := range []int{-1, 21, 22, 28} {
			checkNoSyllable(t, parts{p.first, wrong, p.last})
		}
		for _, wrong := range []int{-1, 28, 29, 588} {
			checkNoSyllable(t, parts{p.first, p.middle, wrong})
		}
	}
}

// TestFarParts: parts far outside, one, two or all of them.
func TestFarParts(t *testing.T) {
	for _, far := range farParts() {
		for _, p := range []parts{{0, 0, 0}, {1, 1, 1}, {9, 10, 14}, {18, 20, 27}} {
			checkNoSyllable(t, parts{far, p.middle, p.last})
			checkNoSyllable(t, parts{p.first, far, p.last})
			checkNoSyllable(t, parts{p.first, p.middle, far})
			checkNoSyllable(t, parts{p.first, far, far})
			checkNoSyllable(t, parts{far, p.middle, far})
			checkNoSyllable(t, parts{far, far, p.last})
		}
		checkNoSyllable(t, parts{far, far, far})
		checkNoSyllable(t, parts{far, -far, far})
		checkNoSyllable(t, parts{-far, far, -far})
	}
}

// TestPartsOfEveryNumber: Parts of every scalar, and of the numbers around them.
func TestPartsOfEveryNumber(t *testing.T) {
	all := allParts()
	for u := rune(-0x11000); u < 0x121000; u++ {
		if 0xAC00 <= u && u <= 0xD7A3 {
			checkParts(t, u, all[u-0xAC00])
		} else {
			checkNoParts(t, u)
		}
	}
}

// TestNoParts: what is no syllable, and what is none but is alike in its lowest bits.
func TestNoParts(t *testing.T) {
	for _, u := range []rune{0, 1, 0x20, 'A', 0x1100, 0x1161, 0x11A8, 0x3042, 0x3131, 0x318E, 0x4F3D, 0xABFE, 0xABFF, 0xD7A4, 0xD7A5, 0xD7B0, 0xD7FF, 0xE000, 0xFFFD, 0x10FFFF} {
		checkNoParts(t, u)
	}
	for _, u := range noScalars {
		checkNoParts(t, u)
	}
	for u := rune(0xAC00); u <= 0xD7A3; u++ {
		for _, v := range []rune{-u, ^u, u & 0xFF, u - 0x10000, u + 0x10000, u + 0x110000, u + 0x1000000, u + 0x40000000, math.MinInt32 + u} {
			checkNoParts(t, v)
		}
	}
}

// TestPartsThereAndBack: Syllable of Parts, and Parts of Syllable, by the program's own answers.
func TestPartsThereAndBack(t *testing.T) {
	n := 0
	for u := rune(0); u <= 0x10FFFF; u++ {
		a, b, c, ok := ksc.Parts(u)
		if !ok {
			continue
		}
		n++
		if back, ok := ksc.Syllable(a, b, c); back != u || !ok {
			t.Errorf("%04X is of %d, %d, %d, which is %04X, %v", u, a, b, c, back, ok)
		}
	}
	if n != 11172 {
		t.Errorf("%d syllables", n)
	}
}
