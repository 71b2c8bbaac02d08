package pack_test

import (
	"bytes"
	"math"
	"math/rand"
	"slices"
	"strings"
	"testing"

	"gesso/api"
	"gesso/pack"
)

// fields tells texts as fields.
func fields(l ...string) [][]byte {
	var all [][]byte
	for _, s := range l {
		all = append(all, []byte(s))
	}
	return all
}

// same tells whether two lists of fields have the same bytes.
func same(a, b [][]byte) bool { return slices.EqualFunc(a, b, bytes.Equal) }

// laid tells what P11.1 says word by word, of fields that are not too long.
func laid(l ...[]byte) string {
	var s strings.Builder
	for _, f := range l {
		s.WriteByte(byte(len(f) / 256))
		s.WriteByte(byte(len(f) % 256))
		s.Write(f)
	}
	return s.String()
}

// some tells bytes of a length, by chance.
func some(r *rand.Rand, n int) []byte {
	b := make([]byte, n)
	r.Read(b)
	return b
}

// checkBoth packs fields, as bytes and as texts, and unpacks what was laid (P11.1, P11.3, P11.4).
func checkBoth(t *testing.T, l ...[]byte) {
	t.Helper()
	want := laid(l...)
	var texts []string
	for _, f := range l {
		texts = append(texts, string(f))
	}
	if b, e := pack.Pack(l...); string(b) != want || e != api.OK {
		t.Fatalf("Pack(%x) = %x, %d, want %x", l, b, int(e), want)
	}
	if b, e := pack.Texts(texts); string(b) != want || e != api.OK {
		t.Fatalf("Texts(%x) = %x, %d, want %x", texts, b, int(e), want)
	}
	if got, e := pack.Unpack([]byte(want)); !same(got, l) || e != api.OK {
		t.Fatalf("Unpack(%x) = %x, %d, want %x", want, got, int(e), l)
	}
	if got, e := pack.Strings([]byte(want)); !slices.Equal(got, texts) || e != api.OK {
		t.Fatalf("Strings(%x) = %x, %d, want %x", want, got, int(e), texts)
	}
}

// checkRefused holds that bytes are no fields.
func checkRefused(t *testing.T, b []byte) {
	t.Helper()
	if got, e := pack.Unpack(b); len(got) != 0 || e != api.ErrForm {
		t.Fatalf("Unpack(%.40x..), of %d bytes, = %d fields, %d", b, len(b), len(got), int(e))
	}
	if got, e := pack.Strings(b); len(got) != 0 || e != api.ErrForm {
		t.Fatalf("Strings(%.40x..), of %d bytes, = %d texts, %d", b, len(b), len(got), int(e))
	}
}

// P11.1: told by hand, with the chapter's examples.
func TestPackCases(t *testing.T) {
	for _, x := range []struct {
		l    [][]byte
		want string
	}{
		{nil, ""},
		{[][]byte{}, ""},
		{[][]byte{nil}, "\x00\x00"},
		{[][]byte{{}}, "\x00\x00"},
		{[][]byte{nil, {}, nil}, "\x00\x00\x00\x00\x00\x00"},
		{fields("ab", ""), "\x00\x02ab\x00\x00"},
		{fields("", "ab"), "\x00\x00\x00\x02ab"},
		{fields("a", "b"), "\x00\x01a\x00\x01b"},
		{fields("\x00"), "\x00\x01\x00"},
		{fields("\x00\x01a"), "\x00\x03\x00\x01a"},
		{fields("\xff\xfe", "\xc3"), "\x00\x02\xff\xfe\x00\x01\xc3"},
		{fields(strings.Repeat("x", 255)), "\x00\xff" + strings.Repeat("x", 255)},
		{fields(strings.Repeat("x", 256)), "\x01\x00" + strings.Repeat("x", 256)},
		{fields(strings.Repeat("x", 258), "y"), "\x01\x02" + strings.Repeat("x", 258) + "\x00\x01y"},
		{fields(strings.Repeat("x", 1024)), "\x04\x00" + strings.Repeat("x", 1024)},
	} {
		if got, e := pack.Pack(x.l...); string(got) != x.want || e != api.OK {
			t.Errorf("Pack(%x) = %x, %d, want %x", x.l, got, int(e), x.want)
		}
		checkBoth(t, x.l...)
	}
	if b, e := pack.Pack(); len(b) != 0 || e != api.OK {
		t.Errorf("Pack() = %x, %d", b, int(e))
	}
}

// P11.1 and P11.3: each length that a field may have, and those that it may not.
func TestLengths(t *testing.T) {
	r := rand.New(rand.NewSource(111))
	for n := range api.MaxRecord + 1 {
		checkBoth(t, some(r, n))
		checkBoth(t, []byte("ahead"), some(r, n), []byte("behind"))
	}
	for _, n := range []int{1025, 1026, 1279, 1280, 2048, 65535, 65536, 65537, 65536 + 1024, 1 << 20} {
		f := make([]byte, n)
		for _, l := range [][][]byte{{f}, {f, []byte("a")}, {[]byte("a"), f}, {nil, f, nil}, {f, f}, {f[:1024], f[:1024], f}} {
			if b, e := pack.Pack(l...); len(b) != 0 || e != api.ErrLong {
				t.Errorf("Pack of %d bytes in one of %d fields = %d bytes, %d", n, len(l), len(b), int(e))
			}
			var texts []string
			for _, f := range l {
				texts = append(texts, string(f))
			}
			if b, e := pack.Texts(texts); len(b) != 0 || e != api.ErrLong {
				t.Errorf("Texts of %d bytes in one of %d = %d bytes, %d", n, len(l), len(b), int(e))
			}
		}
	}
}

// P11.1: each field alone is bounded, not all of them.
func TestMany(t *testing.T) {
	whole := bytes.Repeat([]byte("x"), api.MaxRecord)
	checkBoth(t, slices.Repeat([][]byte{whole}, 200)...)
	checkBoth(t, make([][]byte, 70000)...)
	checkBoth(t, slices.Repeat(fields("a"), 70000)...)
}

// P11.1 and P11.3: bytes that are laid for no fields, since one is cut off, or too long.
func TestRefused(t *testing.T) {
	for _, s := range []string{
		"\x00", "\x01", "\x02", "\x04", "\xff", "\x00\x01", "\x00\x02a", "\x01\x00", "\x04\x00", "\x04\x01", "\xff\xff",
		"\x00\x02ab\x00", "\x00\x02ab\x00\x00\x00", "\x00\x00\x00", "\x00\x00\x01", "\x00\x00\x00\x01", "\x00\x01ab", "\x00\x01a\x00\x02b",
		"\x02\x00ab", "ab", "a",
	} {
		checkRefused(t, []byte(s))
	}
	// Every length that two bytes can tell: with too few bytes, with just so many, and with one too many.
	for n := range 1 << 16 {
		b := make([]byte, 2+n)
		b[0], b[1] = byte(n>>8), byte(n)
		if n > 0 {
			checkRefused(t, b[:2+n-1])
		}
		if n > api.MaxRecord {
			checkRefused(t, b)
			continue
		}
		checkRefused(t, append(b, 0))
		if got, e := pack.Unpack(b); len(got) != 1 || !bytes.Equal(got[0], b[2:]) || e != api.OK {
			t.Fatalf("Unpack of %d bytes as one field = %d fields, %d", n, len(got), int(e))
		}
	}
}

// P11.1: a fault is one wherever it stands: nothing is told of the fields ahead of it.
func TestRefusedBehind(t *testing.T) {
	r := rand.New(rand.NewSource(112))
	for range 2000 {
		var l [][]byte
		for range 1 + r.Intn(5) {
			l = append(l, some(r, 1+r.Intn(20)))
		}
		whole := []byte(laid(l...))
		right := map[int]int{}
		for n := range len(l) + 1 {
			right[len(laid(l[:n]...))] = n
		}
		for at := range len(whole) + 1 {
			n, ok := right[at]
			if !ok {
				checkRefused(t, whole[:at])
				continue
			}
			if got, e := pack.Unpack(whole[:at]); !same(got, l[:n]) || e != api.OK {
				t.Fatalf("Unpack(%x) = %x, %d, want %x", whole[:at], got, int(e), l[:n])
			}
		}
		checkRefused(t, append(whole, some(r, 1)...))
		checkRefused(t, append(whole, 4, 1+byte(r.Intn(255))))
		checkRefused(t, append(whole, 5+byte(r.Intn(251)), byte(r.Intn(256))))
	}
}

// rows goes over all lists of up to so many of some things, that are not longer in all than most.
func rows[T any](things []T, width func(T) int, most int, do func([]T)) {
	var row []T
	var more func(left int)
	more = func(left int) {
		do(row)
		for _, x := range things {
			if w := width(x); w <= left {
				row = append(row, x)
				more(left - w)
				row = row[:len(row)-1]
			}
		}
	}
	more(most)
}

// P11.4: all short bytes of few kinds: they are unpacked, if and only if some fields are laid so, and to these; there is
// one list alone that is laid so.
func TestOneWay(t *testing.T) {
	const most = 9
	kinds := []byte{0, 1, 2}
	one := func(byte) int { return 1 }
	var things [][]byte
	rows(kinds, one, 2, func(f []byte) { things = append(things, bytes.Clone(f)) })
	want := map[string][][]byte{}
	rows(things, func(f []byte) int { return 2 + len(f) }, most, func(l [][]byte) {
		s := laid(l...)
		if _, ok := want[s]; ok {
			t.Fatalf("%x is laid for two lists", s)
		}
		want[s] = slices.Clone(l)
	})
	told := 0
	rows(kinds, one, most, func(b []byte) {
		l, ok := want[string(b)]
		if !ok {
			checkRefused(t, b)
			return
		}
		told++
		checkBoth(t, l...)
	})
	if told != len(want) || told < 100 {
		t.Errorf("%d are fields, want %d", told, len(want))
	}
}

// P11.4: fields by chance are unpacked again, and bytes by chance are refused, or packed to the same again.
func TestByChance(t *testing.T) {
	r := rand.New(rand.NewSource(114))
	for range 3000 {
		var l [][]byte
		for range r.Intn(8) {
			l = append(l, some(r, r.Intn(1+r.Intn(api.MaxRecord+1))))
		}
		checkBoth(t, l...)
	}
	for range 100000 {
		b := some(r, r.Intn(14))
		for i := range b {
			b[i] %= 1 + byte(r.Intn(6))
		}
		l, e := pack.Unpack(b)
		if e == api.ErrForm {
			continue
		}
		if again, e2 := pack.Pack(l...); e != api.OK || e2 != api.OK || !bytes.Equal(again, b) {
			t.Fatalf("%x is unpacked to %x, %d, and packed to %x, %d", b, l, int(e), again, int(e2))
		}
	}
}

// checkNumber lays a number, and reads it again (P11.2).
func checkNumber(t *testing.T, n uint64, want string) {
	t.Helper()
	if b := pack.Num(n); string(b) != want {
		t.Fatalf("Num(%d) = %x, want %x", n, b, want)
	}
	if got, e := pack.Number([]byte(want)); got != n || e != api.OK {
		t.Fatalf("Number(%x) = %d, %d, want %d", want, got, int(e), n)
	}
}

// P11.2: told by hand, with the chapter's example.
func TestNumCases(t *testing.T) {
	for _, x := range []struct {
		n    uint64
		want string
	}{
		{0, ""}, {1, "\x01"}, {127, "\x7f"}, {128, "\x80"}, {255, "\xff"},
		{256, "\x01\x00"}, {258, "\x01\x02"}, {65535, "\xff\xff"}, {65536, "\x01\x00\x00"},
		{1<<24 - 1, "\xff\xff\xff"}, {1 << 24, "\x01\x00\x00\x00"},
		{1<<32 - 1, "\xff\xff\xff\xff"}, {1 << 32, "\x01\x00\x00\x00\x00"},
		{1<<40 - 1, "\xff\xff\xff\xff\xff"}, {1 << 40, "\x01\x00\x00\x00\x00\x00"},
		{1<<48 - 1, "\xff\xff\xff\xff\xff\xff"}, {1 << 48, "\x01\x00\x00\x00\x00\x00\x00"},
		{1<<56 - 1, "\xff\xff\xff\xff\xff\xff\xff"}, {1 << 56, "\x01\x00\x00\x00\x00\x00\x00\x00"},
		{0x0123456789abcdef, "\x01\x23\x45\x67\x89\xab\xcd\xef"}, {0xfedcba9876543210, "\xfe\xdc\xba\x98\x76\x54\x32\x10"},
		{math.MaxInt64, "\x7f\xff\xff\xff\xff\xff\xff\xff"}, {1 << 63, "\x80\x00\x00\x00\x00\x00\x00\x00"},
		{math.MaxUint64, "\xff\xff\xff\xff\xff\xff\xff\xff"},
	} {
		checkNumber(t, x.n, x.want)
	}
	for _, b := range [][]byte{nil, {}} {
		if n, e := pack.Number(b); n != 0 || e != api.OK {
			t.Errorf("Number(nothing) = %d, %d", n, int(e))
		}
	}
}

// digits tells a number's digits to the base 256, the highest first: none of 0.
func digits(n uint64) string {
	if n == 0 {
		return ""
	}
	return digits(n/256) + string([]byte{byte(n % 256)})
}

// P11.2 and P11.4: small numbers, all about the bounds of widths, and some of each width.
func TestNum(t *testing.T) {
	r := rand.New(rand.NewSource(116))
	for n := range uint64(1 << 17) {
		checkNumber(t, n, digits(n))
		checkNumber(t, math.MaxUint64-n, digits(math.MaxUint64-n))
	}
	for by := range 64 {
		for n := uint64(0); n < 300; n++ {
			checkNumber(t, 1<<by+n, digits(1<<by+n))
			checkNumber(t, 1<<by-n, digits(1<<by-n))
			wide := r.Uint64() >> by
			checkNumber(t, wide, digits(wide))
		}
	}
}

// P11.2 and P11.4: all bytes of up to two, and such of all lengths: taken are those that a number is laid in.
func TestNumber(t *testing.T) {
	check := func(b []byte) {
		t.Helper()
		n, e := pack.Number(b)
		if len(b) > 8 || len(b) > 0 && b[0] == 0 {
			if n != 0 || e != api.ErrForm {
				t.Fatalf("Number(%x) = %d, %d", b, n, int(e))
			}
			return
		}
		if e != api.OK || digits(n) != string(b) || !bytes.Equal(pack.Num(n), b) {
			t.Fatalf("Number(%x) = %d, %d", b, n, int(e))
		}
	}
	for a := range 256 {
		check([]byte{byte(a)})
		for b := range 256 {
			check([]byte{byte(a), byte(b)})
		}
	}
	r := rand.New(rand.NewSource(117))
	for n := range 40 {
		check(make([]byte, n))
		check(bytes.Repeat([]byte{0xff}, n))
		for range 2000 {
			b := some(r, n)
			check(b)
			check(append([]byte{0}, b...))
			check(append([]byte{1}, b...))
			check(append(b, 0))
		}
	}
	check(append([]byte{1}, make([]byte, 8)...))
	check(append(make([]byte, 8), 1))
	check(bytes.Repeat([]byte{1}, 1<<20))
}

// P11.3: texts are bytes of any kind.
func TestTexts(t *testing.T) {
	for _, l := range [][]string{nil, {}} {
		if b, e := pack.Texts(l); len(b) != 0 || e != api.OK {
			t.Errorf("Texts(nothing) = %x, %d", b, int(e))
		}
	}
	for _, b := range [][]byte{nil, {}} {
		if l, e := pack.Strings(b); len(l) != 0 || e != api.OK {
			t.Errorf("Strings(nothing) = %q, %d", l, int(e))
		}
		if l, e := pack.Unpack(b); len(l) != 0 || e != api.OK {
			t.Errorf("Unpack(nothing) = %x, %d", l, int(e))
		}
	}
	if b, e := pack.Texts([]string{"a", "", "e\u0301", "\xff\xc3"}); string(b) != "\x00\x01a\x00\x00\x00\x03e\xcc\x81\x00\x02\xff\xc3" || e != api.OK {
		t.Errorf("Texts = %x, %d", b, int(e))
	}
	if l, e := pack.Strings([]byte("\x00\x01a\x00\x00\x00\x03e\xcc\x81\x00\x02\xff\xc3")); !slices.Equal(l, []string{"a", "", "e\u0301", "\xff\xc3"}) || e != api.OK {
		t.Errorf("Strings = %q, %d", l, int(e))
	}
	// Counted are bytes, not code points.
	if b, e := pack.Texts([]string{strings.Repeat("\u0301", 513)}); len(b) != 0 || e != api.ErrLong {
		t.Errorf("Texts of 1026 bytes = %d bytes, %d", len(b), int(e))
	}
	checkBoth(t, []byte(strings.Repeat("\u0301", 512)))
}

// spoil overwrites bytes with their spare room.
func spoil(b []byte) {
	b = b[:cap(b)]
	for i := range b {
		b[i] = 'z'
	}
}

// Rule 3: arguments are neither changed nor kept, with what stands behind them.
func TestArguments(t *testing.T) {
	room := []byte("\x00\x02ab\x00\x01c\x00\x00behind")
	kept := string(room)
	b := room[:9]
	l := [][]byte{b, b[2:4], room[9:9], nil, []byte("not given")}
	packed, _ := pack.Pack(l[:4]...)
	got, _ := pack.Unpack(b)
	texts, _ := pack.Strings(b)
	pack.Number(b[3:8])
	list := []string{"a", "b", "not given"}
	asTexts, _ := pack.Texts(list[:2])
	if string(room) != kept || string(l[4]) != "not given" || string(l[1]) != "ab" || list[2] != "not given" {
		t.Errorf("arguments were changed: %q, %q, %q", room, l, list)
	}
	want := laid([]byte(kept[:9]), []byte("ab"), nil, nil)
	spoil(room)
	clear(l)
	clear(list)
	if string(packed) != want || string(asTexts) != "\x00\x01a\x00\x01b" {
		t.Errorf("what was packed changed with the fields: %x, %x", packed, asTexts)
	}
	if !same(got, fields("ab", "c", "")) || !slices.Equal(texts, []string{"ab", "c", ""}) {
		t.Errorf("what was unpacked changed with the bytes: %x, %q", got, texts)
	}
}

// Rule 3: an answer is new memory, with its spare room: none of it is an argument's, another answer's, or another field's.
func TestNewMemory(t *testing.T) {
	r := rand.New(rand.NewSource(113))
	for range 500 {
		var l [][]byte
		for range r.Intn(9) {
			l = append(l, some(r, r.Intn(40)))
		}
		b, _ := pack.Pack(l...)
		twin, _ := pack.Pack(l...)
		want := laid(l...)
		got, _ := pack.Unpack(b)
		other, _ := pack.Unpack(b)
		for i := range got {
			spoil(got[i])
			if !same(got[i+1:], l[i+1:]) || !same(other, l) || string(b) != want {
				t.Fatalf("field %d has memory in common with others", i)
			}
		}
		clear(got[:cap(got)])
		spoil(b)
		if !same(other, l) || string(twin) != want || laid(l...) != want {
			t.Fatal("an answer has memory in common with another one")
		}
	}
	for n := range uint64(600) {
		one, other := pack.Num(n), pack.Num(n)
		spoil(one)
		if string(other) != digits(n) || string(pack.Num(n)) != digits(n) {
			t.Fatalf("Num(%d) has memory in common with another answer", n)
		}
	}
	// One field is laid as if alone, but not in the memory of the field.
	f := append(make([]byte, 0, 100), "alone"...)
	b, _ := pack.Pack(f)
	spoil(b)
	if string(f) != "alone" {
		t.Errorf("a field was changed to %q", f)
	}
}
