// Package octet is layer 1: bytes, and numbers in them; see shared/doc/01-octet.md.
package octet

import (
	"strings"

	"diacritic/api"
)

// maxSize is how many bytes the greatest number has.
const maxSize = 8

// safeSize is how many bytes a number of seven bits a byte has.
const safeSize = 4

// Join is texts, one behind the other.
func Join(parts ...string) string { return strings.Join(parts, "") }

// Big is a number in so many bytes, the highest first.
func Big(n uint64, size int) string {
	b := make([]byte, bounded(size))
	for i := len(b) - 1; i >= 0; i-- {
		b[i] = byte(n)
		n >>= 8
	}
	return string(b)
}

// Small is a number in so many bytes, the lowest first.
func Small(n uint64, size int) string {
	b := make([]byte, bounded(size))
	for i := range b {
		b[i] = byte(n)
		n >>= 8
	}
	return string(b)
}

// Safe is a number in four bytes of seven bits, the highest first; false: it is too great.
func Safe(n uint64) (string, bool) {
	if n > api.MaxSafe {
		return "", false
	}
	b := make([]byte, safeSize)
	for i := len(b) - 1; i >= 0; i-- {
		b[i] = byte(n & 0x7F)
		n >>= 7
	}
	return string(b), true
}

// bounded is the size that is meant, whatever size is told.
func bounded(size int) int { return min(max(size, 0), maxSize) }
