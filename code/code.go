// Package code is layer 1, UTF-8, strictly by the Unicode Standard's table 3-7: see shared/doc/01-code.md.
package code

import "gesso/api"

// longest is how many bytes a code point has at the most.
const longest = 4

// Width tells how many bytes a code point has; 0 of other numbers.
func Width(c uint32) int {
	switch {
	case c < 0x80:
		return 1
	case c < 0x800:
		return 2
	case 0xd800 <= c && c <= 0xdfff || c > api.MaxCode:
		return 0
	case c < 0x10000:
		return 3
	}
	return 4
}

// Put tells a code point's bytes; ErrArg of other numbers.
func Put(c uint32) ([]byte, api.Errno) {
	// Asked ahead, since the text of a rune that is no code point would be that of fffd.
	if Width(c) == 0 {
		return nil, api.ErrArg
	}
	b := []byte(string(rune(c)))
	return b[:len(b):len(b)], api.OK
}

// One tells the code point that bytes begin with, and how many bytes it has; 0 and 0, if there is none.
func One(b []byte) (uint32, int) {
	first, n := rune(0), min(len(b), longest)
	for at, r := range string(b[:n:n]) {
		if at > 0 {
			n = at
			break
		}
		first = r
	}
	c := uint32(first)
	// A single byte that is not right is gone over as fffd, too, but fffd itself has three bytes.
	if n != Width(c) {
		return 0, 0
	}
	return c, n
}

// Fault tells how many right bytes, at the most, bytes begin with; -1, if these are all.
func Fault(b []byte) int {
	for at := 0; at < len(b); {
		_, n := One(b[at:])
		if n == 0 {
			return at
		}
		at += n
	}
	return -1
}

// Codes tells the code points of bytes; ErrUTF8, if they are not right.
func Codes(b []byte) ([]uint32, api.Errno) {
	if Fault(b) >= 0 {
		return nil, api.ErrUTF8
	}
	var l []uint32
	for _, r := range string(b) {
		l = append(l, uint32(r))
	}
	return l, api.OK
}

// Bytes tells the bytes of code points, one behind the other; ErrArg, if one is none.
func Bytes(l []uint32) ([]byte, api.Errno) {
	var b []byte
	for _, c := range l {
		one, e := Put(c)
		if e != api.OK {
			return nil, e
		}
		b = append(b, one...)
	}
	return b, api.OK
}
