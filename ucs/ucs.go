// Package ucs is layer 1: scalar values. See shared/doc/01-ucs.md.
package ucs

import "strings"

// The bounds of scalars and of surrogates.
const (
	most      rune = 0x10FFFF
	firstHigh rune = 0xD800
	lastHigh  rune = 0xDBFF
	firstLow  rune = 0xDC00
	lastLow   rune = 0xDFFF
	firstPair rune = 0x10000 // the least scalar that two surrogates make
)

// By how many bits a number is shifted: below its plane, for a low surrogate, for a digit.
const (
	planeBits = 16
	pairBits  = 10
	digitBits = 4
)

// How a scalar is written.
const (
	prefix      = "U+"
	hexDigits   = "0123456789ABCDEF"
	leastDigits = 4
	mostDigits  = 6
)

// Scalar tells whether a number is a scalar value.
func Scalar(u rune) bool {
	return u >= 0 && u <= most && !High(u) && !Low(u)
}

// Plane is a scalar's plane.
func Plane(u rune) int {
	if !Scalar(u) {
		return -1
	}
	return int(u >> planeBits)
}

// High tells whether a unit is a high surrogate.
func High(u rune) bool { return u >= firstHigh && u <= lastHigh }

// Low tells whether a unit is a low surrogate.
func Low(u rune) bool { return u >= firstLow && u <= lastLow }

// Join is the scalar of two surrogates.
func Join(high, low rune) (rune, bool) {
	if !High(high) || !Low(low) {
		return 0, false
	}
	return firstPair + (high-firstHigh)<<pairBits + (low - firstLow), true
}

// Split is the two surrogates of a scalar.
func Split(u rune) (rune, rune, bool) {
	if u < firstPair || u > most {
		return 0, 0, false
	}
	rest := u - firstPair
	return firstHigh + rest>>pairBits, firstLow + rest&(1<<pairBits-1), true
}

// Hex is a scalar in writing.
func Hex(u rune) string {
	if !Scalar(u) {
		return ""
	}
	digits := ""
	for rest := u; rest > 0 || len(digits) < leastDigits; rest >>= digitBits {
		digits = string(hexDigits[rest&0xF]) + digits
	}
	return prefix + digits
}

// Parse is the scalar that a writing is.
func Parse(s string) (rune, bool) {
	digits, ok := strings.CutPrefix(s, prefix)
	if !ok || len(digits) > mostDigits {
		// No scalar has more digits, and so the sum below can't leave its type.
		return 0, false
	}
	var u rune
	for _, r := range digits {
		d, ok := digitValue(r)
		if !ok {
			return 0, false
		}
		u = u<<digitBits + d
	}
	// Too few digits, needless noughts and numbers that are no scalars all show here.
	if Hex(u) != s {
		return 0, false
	}
	return u, true
}

// digitValue is the number that a digit of Hex stands for.
func digitValue(r rune) (rune, bool) {
	switch {
	case r >= '0' && r <= '9':
		return r - '0', true
	case r >= 'A' && r <= 'F':
		return r - 'A' + 10, true
	}
	return 0, false
}
