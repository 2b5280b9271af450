package script

import "strings"

// sixteen is the digits that are told, each at its number.
const sixteen = "0123456789ABCDEF"

// Hex is bytes as digits.
func Hex(b []byte) string {
	if len(b) == 0 {
		return nothing
	}
	var s strings.Builder
	for _, c := range b {
		s.WriteByte(sixteen[c>>4])
		s.WriteByte(sixteen[c&0xF])
	}
	return s.String()
}

// Bytes is the bytes that digits are.
func Bytes(s string) ([]byte, bool) {
	if s == nothing {
		return nil, true
	}
	// An empty text has no digits, and no bytes have a sign of their own.
	if s == "" || len(s)%2 != 0 {
		return nil, false
	}
	var b []byte
	for i := 0; i < len(s); i += 2 {
		high, ok := digit(s[i])
		if !ok {
			return nil, false
		}
		low, ok := digit(s[i+1])
		if !ok {
			return nil, false
		}
		b = append(b, high<<4|low)
	}
	return b, true
}

// digit is a digit's number, of large letters and small ones.
func digit(c byte) (byte, bool) {
	switch {
	case '0' <= c && c <= '9':
		return c - '0', true
	case 'A' <= c && c <= 'F':
		return c - 'A' + 10, true
	case 'a' <= c && c <= 'f':
		return c - 'a' + 10, true
	}
	return 0, false
}
