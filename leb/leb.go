// Package leb encodes integers in groups of seven bits, and in eight bytes (chapter 1).
package leb

import (
	"lighterman/api"
)

const (
	group   = 7    // bits of the number in each byte
	more    = 0x80 // the bit of every byte that is not the last one
	longest = 8    // bytes of the longest encoding
	fixed   = 8    // bytes of Eight
)

// Size returns the number of bytes of Put(v), or 0 if v cannot be encoded.
func Size(v int) int {
	if !encodable(v) {
		return 0
	}
	n := 1
	for v >>= group; v > 0; v >>= group {
		n++
	}
	return n
}

// Put returns the shortest encoding of v, the least significant group first.
func Put(v int) string {
	n := Size(v)
	if n == 0 {
		return ""
	}
	b := make([]byte, n)
	for i := range b {
		b[i] = byte(v) | more
		v >>= group
	}
	b[n-1] &^= more
	return string(b)
}

// Next decodes the number at byte offset at of s, and returns it with the offset of the byte after it.
func Next(s string, at int) (int, int, api.Errno) {
	if at < 0 || at > len(s) {
		return 0, 0, api.ErrRange
	}
	v := 0
	for i := range longest {
		if at+i == len(s) {
			return 0, 0, api.ErrShort
		}
		b := s[at+i]
		v |= int(b&^more) << (group * i)
		if b >= more {
			continue
		}
		if b == 0 && i > 0 {
			return 0, 0, api.ErrForm
		}
		return v, at + i + 1, api.OK
	}
	return 0, 0, api.ErrLong
}

// Eight returns v as eight bytes, the most significant one first.
func Eight(v int) string {
	if !encodable(v) {
		return ""
	}
	var b [fixed]byte
	for i := range b {
		b[i] = byte(v >> (8 * (fixed - 1 - i)))
	}
	return string(b[:])
}

// FromEight returns the number whose Eight is s.
func FromEight(s string) (int, api.Errno) {
	if len(s) < fixed {
		return 0, api.ErrShort
	}
	if len(s) > fixed {
		return 0, api.ErrLong
	}
	// Unsigned, because the highest bit of the eight bytes can be set.
	var v uint64
	for i := range fixed {
		v = v<<8 | uint64(s[i])
	}
	if v > api.MaxNum {
		return 0, api.ErrForm
	}
	return int(v), api.OK
}

func encodable(v int) bool {
	return v >= 0 && v <= api.MaxNum
}
