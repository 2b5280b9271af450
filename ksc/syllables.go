package ksc

const (
	firstSyllable = 0xAC00
	lastSyllable  = 0xD7A3
)

// How many parts of each place there are; no last part at all counts as one.
const (
	firstParts  = 19
	middleParts = 21
	lastParts   = 28
)

// Syllable is the syllable of three parts.
func Syllable(first, middle, last int) (rune, bool) {
	if !isPart(first, firstParts) || !isPart(middle, middleParts) || !isPart(last, lastParts) {
		return 0, false
	}
	return rune(firstSyllable + (first*middleParts+middle)*lastParts + last), true
}

// isPart says whether a part is one of so many, which are counted from 0.
func isPart(part, parts int) bool { return part >= 0 && part < parts }

// Parts is a syllable's three parts.
func Parts(u rune) (int, int, int, bool) {
	if u < firstSyllable || u > lastSyllable {
		return 0, 0, 0, false
	}
	n := int(u - firstSyllable)
	return n / lastParts / middleParts, n / lastParts % middleParts, n % lastParts, true
}
