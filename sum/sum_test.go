package sum_test

import (
	"bytes"
	"math/rand"
	"slices"
	"strings"
	"testing"

	"gesso/sum"
)

// model tells what P9.1 says word by word, with the 32 bits one by one, the lowest first.
func model(b []byte) uint32 {
	var x, by [32]bool
	for i := range x {
		x[i] = true
		by[i] = uint32(0xedb88320)>>i&1 == 1
	}
	for _, c := range b {
		for i := range 8 {
			x[i] = x[i] != (c>>i&1 == 1)
		}
		for range 8 {
			low := x[0]
			copy(x[:], x[1:])
			x[31] = false
			for i := range x {
				x[i] = x[i] != (low && by[i])
			}
		}
	}
	var value uint32
	for i, one := range x {
		if !one {
			value |= 1 << i
		}
	}
	return value
}

// some tells bytes of a length, the same for a seed.
func some(seed int64, n int) []byte {
	b := make([]byte, n)
	rand.New(rand.NewSource(seed)).Read(b)
	return b
}

// P9.1: sums that are known from elsewhere, the chapter's examples among them.
func TestKnown(t *testing.T) {
	for _, x := range []struct {
		b    string
		want uint32
	}{
		{"", 0},
		{"123456789", 0xcbf43926},
		{"1234", 0x9be3e0a3},
		{"a", 0xe8b7be43},
		{"abc", 0x352441c2},
		{"message digest", 0x20159d7f},
		{"abcdefghijklmnopqrstuvwxyz", 0x4c2750bd},
		{"The quick brown fox jumps over the lazy dog", 0x414fa339},
		{"\x00", 0xd202ef8d},
		{"\xff", 0xff000000},
		{"\x00\x00\x00\x00", 0x2144df1c},
		{"\xff\xff\xff\xff", 0xffffffff},
		{strings.Repeat("\x00", 32), 0x190a55ad},
		{strings.Repeat("\xff", 32), 0xff6cab0b},
		{"\xc3\xa9", 0x0e048d3e},
	} {
		if got := sum.Of([]byte(x.b)); got != x.want {
			t.Errorf("Of(%q) = %x, want %x", x.b, got, x.want)
		}
	}
	if sum.Of(nil) != 0 {
		t.Errorf("Of(nil) = %x, want 0", sum.Of(nil))
	}
}

// P9.1: all bytes alone, all two bytes, and bytes of all kinds and of many lengths, against the words of the promise.
func TestOf(t *testing.T) {
	check := func(b []byte) {
		t.Helper()
		if got, want := sum.Of(b), model(b); got != want {
			t.Errorf("Of(%x) = %x, want %x", b, got, want)
		}
	}
	for a := range 256 {
		check([]byte{byte(a)})
		for b := range 256 {
			check([]byte{byte(a), byte(b)})
		}
	}
	for n := range 600 {
		check(some(int64(n), n))
		check(bytes.Repeat([]byte{0}, n))
		check(bytes.Repeat([]byte{0xff}, n))
	}
	long := some(9, 1<<18)
	if got, want := sum.Of(long), model(long); got != want {
		t.Errorf("Of(%d bytes) = %x, want %x", len(long), got, want)
	}
}

// P9.2: the beginning, and what goes on from a value, wherever it came from.
func TestFrom(t *testing.T) {
	if got := sum.Start().Value(); got != 0 {
		t.Errorf("Value of Start = %x, want 0", got)
	}
	if got := sum.From(sum.Of([]byte("1234"))).Add([]byte("56789")).Value(); got != 0xcbf43926 {
		t.Errorf("Of(1234), gone on over 56789, = %x, want cbf43926", got)
	}
	values := []uint32{0, 1, 0xff, 0x80000000, 0xedb88320, 0x7fffffff, 0xfffffffe, 0xffffffff}
	r := rand.New(rand.NewSource(92))
	for range 5000 {
		values = append(values, r.Uint32())
	}
	for _, v := range values {
		if got := sum.From(v).Value(); got != v {
			t.Errorf("Value of From(%x) = %x", v, got)
		}
		for _, nothing := range [][]byte{nil, {}} {
			if got := sum.From(v).Add(nothing).Value(); got != v {
				t.Errorf("From(%x) with nothing added = %x", v, got)
			}
		}
		// No four bytes have a sum in common with others, so that some four have this one: what goes on from there must
		// be what those would have made.
		four := ending(v)
		if got := sum.Of(four); got != v {
			t.Fatalf("Of(%x) = %x, want %x", four, got, v)
		}
		more := some(int64(v), int(v%7))
		if got, want := sum.From(v).Add(more).Value(), model(append(four, more...)); got != want {
			t.Errorf("From(%x) with %x added = %x, want %x", v, more, got, want)
		}
	}
}

// ending tells the four bytes whose sum is a value: each step of P9.1 taken back, since edb88320 has its greatest bit
// and what was moved right has not.
func ending(value uint32) []byte {
	x := ^value
	for range 32 {
		if x>>31 == 1 {
			x = (x^0xedb88320)<<1 | 1
		} else {
			x <<= 1
		}
	}
	x = ^x
	return []byte{byte(x), byte(x >> 8), byte(x >> 16), byte(x >> 24)}
}

// P9.2 and P9.3: however bytes are cut, and whether or not their sum is put aside between, they have one sum.
func TestCuts(t *testing.T) {
	for n := range 40 {
		b := some(int64(n)+300, n)
		want := model(b)
		for i := range n + 1 {
			for j := i; j <= n; j++ {
				if got := sum.Start().Add(b[:i]).Add(b[i:j]).Add(b[j:]).Value(); got != want {
					t.Errorf("%x, cut at %d and %d, has %x, want %x", b, i, j, got, want)
				}
				one := sum.From(sum.Of(b[:i])).Add(b[i:j])
				if got := sum.From(one.Value()).Add(b[j:]).Value(); got != want {
					t.Errorf("%x, put aside at %d and %d, has %x, want %x", b, i, j, got, want)
				}
			}
		}
	}
	r := rand.New(rand.NewSource(93))
	for n := range 300 {
		b := some(int64(n)+700, r.Intn(2000))
		s := sum.Start()
		for left := b; len(left) > 0; {
			next := min(r.Intn(70), len(left))
			s, left = s.Add(left[:next]), left[next:]
		}
		if want := sum.Of(b); s.Value() != want {
			t.Errorf("%d bytes in pieces have %x, want %x", len(b), s.Value(), want)
		}
	}
}

// P9.3: any one byte that is changed changes the sum, wherever it stands, and so does where one that differs stands.
func TestChanged(t *testing.T) {
	for _, b := range [][]byte{{0}, []byte("123456789"), bytes.Repeat([]byte{0}, 70), bytes.Repeat([]byte{0xff}, 70), some(94, 130)} {
		whole := sum.Of(b)
		seen := map[uint32]int{}
		for at := range b {
			was := b[at]
			for by := 1; by < 256; by++ {
				b[at] = was ^ byte(by)
				got := sum.Of(b)
				if got == whole {
					t.Errorf("Of(%x) = %x, as ahead of the change at %d", b, got, at)
				}
				seen[got]++
			}
			b[at] = was
		}
		if len(seen) != 255*len(b) {
			t.Errorf("%d bytes, one of them changed, have %d sums, want %d", len(b), len(seen), 255*len(b))
		}
	}
}

// Rule 3 and rule 4: what is added is not changed and not kept, and a sum that was gone on from stays what it was.
func TestValues(t *testing.T) {
	b := some(95, 64)
	kept := slices.Clone(b)
	s := sum.Start().Add(b[:10])
	was := s.Value()
	one, other := s.Add(b[10:20:20]), s.Add(b[20:30])
	if s.Value() != was || one.Value() != sum.Of(kept[:20]) || one == other {
		t.Errorf("%x went on to %x and %x, and is now %x", was, one, other, s)
	}
	if !bytes.Equal(b, kept) {
		t.Errorf("%x was changed to %x", kept, b)
	}
	for i := range b {
		b[i] = 0xbd
	}
	if one.Value() != sum.Of(kept[:20]) || s.Value() != was {
		t.Errorf("%x and %x changed with the bytes that were added", s, one)
	}
	for range 3 {
		if sum.Of(kept) != model(kept) || sum.Start().Value() != 0 {
			t.Errorf("Of(%x) is not the same each time", kept)
		}
	}
}
