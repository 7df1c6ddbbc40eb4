// Package scalar: scalar values, and the halves of a pair.
package scalar

import "orthoepy/api"

const (
	firstHigh   = 0xD800
	lastHigh    = 0xDBFF
	firstLow    = 0xDC00
	lastLow     = 0xDFFF
	firstPaired = 0x10000

	firstBlocked = 0xFDD0
	lastBlocked  = 0xFDEF
	planeEnd     = 0xFFFE // the bits that a plane's last two numbers, FFFE and FFFF, have in common

	halfBits = 10
	halfMask = 1<<halfBits - 1
)

// kind is a set of marks, since a paired scalar is a scalar too; none of them: the number is neither a scalar nor a half.
type kind uint8

const (
	whole  kind = 1 << iota // a scalar
	paired                  // a scalar that takes two halves
	high                    // the first half of a pair
	low                     // the second half of a pair
)

func (k kind) has(mark kind) bool { return k&mark != 0 }

// kindOf is the one place that knows the bounds, so that the calls below can't disagree about them.
func kindOf(c rune) kind {
	var k kind
	switch {
	case c < 0, c > api.MaxScalar:
	case c >= firstPaired:
		k |= paired
		fallthrough
	case c < firstHigh, c > lastLow:
		k |= whole
	case c <= lastHigh:
		k |= high
	default:
		k |= low
	}
	return k
}

// Is tells whether c is a scalar (P1.1).
func Is(c rune) bool { return kindOf(c).has(whole) }

// Nonchar tells whether c is a noncharacter (P1.1).
func Nonchar(c rune) bool {
	if firstBlocked <= c && c <= lastBlocked {
		return true
	}
	return Is(c) && c&planeEnd == planeEnd
}

// High tells whether u is the first half of a pair (P1.2).
func High(u uint16) bool { return kindOf(rune(u)).has(high) }

// Low tells whether u is the second half of a pair (P1.2).
func Low(u uint16) bool { return kindOf(rune(u)).has(low) }

// Split answers the halves of a scalar that takes two (P1.2).
func Split(c rune) (h, l uint16, ok bool) {
	if !kindOf(c).has(paired) {
		return 0, 0, false
	}
	d := c - firstPaired
	return firstHigh + uint16(d>>halfBits), firstLow + uint16(d&halfMask), true
}

// Join answers the scalar whose halves are h and l (P1.2).
func Join(h, l uint16) (rune, bool) {
	if !High(h) || !Low(l) {
		return 0, false
	}
	return firstPaired + ((rune(h) - firstHigh) << halfBits) + (rune(l) - firstLow), true
}

// Units answers how many UTF-16 units c takes, 0 if it is no scalar (P1.2).
func Units(c rune) int {
	k := kindOf(c)
	switch {
	case k.has(paired):
		return 2
	case k.has(whole):
		return 1
	}
	return 0
}
