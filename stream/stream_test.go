package stream_test

import (
	"bytes"
	"math"
	"math/rand"
	"slices"
	"strings"
	"testing"

	"gesso/api"
	"gesso/code"
	"gesso/norm"
	"gesso/scan"
	"gesso/stream"
	"gesso/sum"
)

const most = 1 << 40

// model does what P10.2 to P10.4 say word by word: it keeps all that was let go and told, and looks at all that is held.
type model struct {
	in, out, held []byte
	e             api.Errno
}

func (m *model) write(b []byte) (string, api.Errno) {
	if m.e != api.OK {
		return "", m.e
	}
	m.held = append(m.held, b...)
	if at := code.Fault(m.held); at >= 0 && !scan.Open(m.held[at:]) {
		return "", m.fail()
	}
	return m.let(safePlace(m.held)), api.OK
}

func (m *model) end() (string, api.Errno) {
	if m.e != api.OK {
		return "", m.e
	}
	if code.Fault(m.held) >= 0 {
		return "", m.fail()
	}
	return m.let(len(m.held)), api.OK
}

func (m *model) fail() api.Errno {
	m.e, m.held = api.ErrUTF8, nil
	return m.e
}

func (m *model) let(n int) string {
	told, _ := norm.Text(m.held[:n])
	m.in, m.out, m.held = append(m.in, m.held[:n]...), append(m.out, told...), m.held[n:]
	return string(told)
}

func (m *model) mark() api.Mark {
	return api.Mark{In: len(m.in), Out: len(m.out), SumIn: sum.Of(m.in), SumOut: sum.Of(m.out)}
}

// safePlace tells the safe place of bytes, as the chapter's words have it.
func safePlace(b []byte) int {
	if at := code.Fault(b); at >= 0 {
		b = b[:at]
	}
	l, _ := code.Codes(b)
	ahead, _ := code.Bytes(l[:norm.Safe(l)])
	return len(ahead)
}

// check holds what a call of a stream told, and how it stands, against the model's.
func check(t *testing.T, what string, s *stream.Stream, m *model, got []byte, e api.Errno, want string, wantE api.Errno) {
	t.Helper()
	if string(got) != want || e != wantE {
		t.Errorf("%s told %+q, %d, want %+q, %d", what, got, int(e), want, int(wantE))
	}
	if s.Held() != len(m.held) || s.Mark() != m.mark() {
		t.Errorf("behind %s: Held %d, Mark %+v, want %d, %+v", what, s.Held(), s.Mark(), len(m.held), m.mark())
	}
}

// checkAll writes pieces to a stream and to the model, ends both, and tells all that was told, and the first error.
func checkAll(t *testing.T, pieces ...[]byte) (string, api.Errno) {
	t.Helper()
	s, m := stream.New(), &model{}
	var all []byte
	first := api.OK
	for _, p := range pieces {
		got, e := s.Write(p)
		want, wantE := m.write(p)
		check(t, "Write", s, m, got, e, want, wantE)
		all = append(all, got...)
		if first == api.OK {
			first = e
		}
	}
	got, e := s.End()
	want, wantE := m.end()
	check(t, "End", s, m, got, e, want, wantE)
	if first == api.OK {
		first = e
	}
	if t.Failed() {
		t.Fatalf("of % x", pieces)
	}
	return string(append(all, got...)), first
}

// checkText holds all that is told of pieces against norm.Text of the whole (P10.5).
func checkText(t *testing.T, pieces ...[]byte) {
	t.Helper()
	whole, wantE := norm.Text(bytes.Join(pieces, nil))
	got, e := checkAll(t, pieces...)
	if e != wantE || e == api.OK && got != string(whole) {
		t.Fatalf("of % x told %+q, %d, want %+q, %d", pieces, got, int(e), whole, int(wantE))
	}
}

// ones cuts bytes into single ones.
func ones(b []byte) [][]byte {
	var l [][]byte
	for i := range b {
		l = append(l, b[i:i+1])
	}
	return l
}

// cuts goes over all ways in which bytes can be cut.
func cuts(b []byte, do func([][]byte)) {
	for by := range 1 << max(len(b)-1, 0) {
		pieces, from := [][]byte{}, 0
		for at := 1; at < len(b); at++ {
			if by>>(at-1)&1 == 1 {
				pieces, from = append(pieces, b[from:at]), at
			}
		}
		do(append(pieces, b[from:]))
	}
}

// chance cuts bytes by chance, into pieces of up to so many bytes, some of them empty.
func chance(r *rand.Rand, b []byte, most int) [][]byte {
	var pieces [][]byte
	for len(b) > 0 {
		n := min(r.Intn(most+1), len(b))
		pieces, b = append(pieces, b[:n]), b[n:]
	}
	return pieces
}

// numbers are code points that start, and such as do not, one of each kind and each width.
var numbers = []uint32{
	0, 0x41, 0x65, 0x7f, 0xe9, 0x7ff, 0x9c7, 0x1100, 0x1112, 0x1ea1, 0xac00, 0xac01, 0xd7a3, 0xfffd, 0x10000, 0x11935, 0x10ffff,
	0x300, 0x301, 0x315, 0x323, 0x338, 0x345, 0x344, 0x5b0, 0x93c, 0x9be, 0x1161, 0x11a8, 0x11c2, 0x212b, 0x2126, 0x958, 0xf900, 0x11930, 0x1d165, 0x1d160, 0x2fa1d,
}

// text tells the bytes of so many of these.
func text(r *rand.Rand, n int) []byte {
	var l []uint32
	for range n {
		l = append(l, numbers[r.Intn(len(numbers))])
	}
	b, _ := code.Bytes(l)
	return b
}

// P10.1 and P10.4.
func TestNew(t *testing.T) {
	s := stream.New()
	if s == nil || s.Held() != 0 || s.Mark() != (api.Mark{}) {
		t.Error("New has something already")
	}
	if b, e := s.End(); len(b) != 0 || e != api.OK || s.Held() != 0 || s.Mark() != (api.Mark{}) {
		t.Errorf("End of nothing = % x, %d", b, int(e))
	}
	for _, b := range [][]byte{nil, {}} {
		if told, e := s.Write(b); len(told) != 0 || e != api.OK || s.Held() != 0 || s.Mark() != (api.Mark{}) {
			t.Errorf("Write of nothing = % x, %d", told, int(e))
		}
	}
}

// P10.1.
func TestFromRefuses(t *testing.T) {
	for _, m := range []api.Mark{
		{In: -1}, {In: math.MinInt}, {Out: -1}, {Out: math.MinInt}, {In: 5, Out: -1}, {In: -1, Out: 5}, {In: -1, Out: -1},
		{In: most + 1}, {In: math.MaxInt}, {In: 5, Out: most + 1}, {In: 5, Out: math.MaxInt}, {In: most + 1, Out: most + 1}, {In: 5, Out: math.MinInt},
		{Out: 1}, {Out: most}, {SumIn: 1}, {SumOut: 1}, {SumIn: 1 << 31}, {Out: 1, SumIn: 1, SumOut: 1}, {SumIn: 1<<32 - 1, SumOut: 1<<32 - 1},
		{In: -1, Out: 5, SumIn: 7, SumOut: 8}, {In: 5, Out: most + 1, SumIn: 7, SumOut: 8},
	} {
		if s, e := stream.From(m); s != nil || e != api.ErrArg {
			t.Errorf("From(%+v) = %v, %d", m, s, int(e))
		}
	}
}

// P10.1 and P10.4: the mark is taken as it is, and goes on from there.
func TestFromTakes(t *testing.T) {
	for _, m := range []api.Mark{
		{}, {In: 1}, {In: 1, Out: 1}, {In: most}, {In: most, Out: most}, {In: 1, Out: most}, {In: 3, Out: 2, SumIn: 7, SumOut: 8},
		{In: 1, SumIn: 1<<32 - 1}, {In: 1, SumOut: 1<<32 - 1}, {In: most, Out: most, SumIn: 1<<32 - 1, SumOut: 1 << 31},
	} {
		s, e := stream.From(m)
		if e != api.OK {
			t.Errorf("From(%+v): %d", m, int(e))
			continue
		}
		if s.Held() != 0 || s.Mark() != m {
			t.Errorf("From(%+v): Held %d, Mark %+v", m, s.Held(), s.Mark())
		}
		if b, e := s.Write([]byte("e\u0301")); len(b) != 0 || e != api.OK || s.Held() != 3 || s.Mark() != m {
			t.Errorf("From(%+v), Write = %+q, %d, Held %d, Mark %+v", m, b, int(e), s.Held(), s.Mark())
		}
		want := api.Mark{
			In: m.In + 3, Out: m.Out + 2,
			SumIn:  sum.From(m.SumIn).Add([]byte("e\u0301")).Value(),
			SumOut: sum.From(m.SumOut).Add([]byte("\u00e9")).Value(),
		}
		if b, e := s.Write([]byte("x")); string(b) != "\u00e9" || e != api.OK || s.Held() != 1 || s.Mark() != want {
			t.Errorf("From(%+v), Write = %+q, %d, Held %d, Mark %+v", m, b, int(e), s.Held(), s.Mark())
		}
	}
}

// step is a piece, what is told of it, and how many bytes are held then.
type step struct {
	write, told string
	held        int
}

// P10.2 to P10.4: some told by hand, with the chapter's example; the last told is End's.
func TestCases(t *testing.T) {
	for _, x := range []struct {
		steps []step
		end   string
	}{
		{[]step{{"A", "", 1}, {"\xcc\x81B", "\u00c1", 1}}, "B"},
		{[]step{{"", "", 0}}, ""},
		{[]step{{"A", "", 1}, {"", "", 1}, {"B", "A", 1}, {"", "", 1}}, "B"},
		{[]step{{"ABC", "AB", 1}, {"D", "C", 1}}, "D"},
		{[]step{{"AB\u0301\u0323", "A", 5}, {"\u0345", "", 7}, {"C", "\u1e04\u0301\u0345", 1}}, "C"},
		// The same at once.
		{[]step{{"AB\u0301\u0323\u0345C", "A\u1e04\u0301\u0345", 1}}, "C"},
		// What does not start, at the very beginning.
		{[]step{{"\u0301", "", 2}, {"\u0323", "", 4}, {"A", "\u0323\u0301", 1}}, "A"},
		{[]step{{"\u0301A\u0323", "\u0301", 3}}, "\u1ea0"},
		// Code points that come byte by byte: an open one's place is no safe one, though it may start.
		{[]step{{"A", "", 1}, {"\xc3", "", 2}, {"\xa9", "A", 2}}, "\u00e9"},
		{[]step{{"\xe2", "", 1}, {"\x84", "", 2}, {"\xab", "", 3}, {"\xe2", "", 4}, {"\x84", "", 5}, {"\xab", "", 6}, {"B", "\u00c5\u00c5", 1}}, "B"},
		{[]step{{"\xf0\x90", "", 2}, {"\x80\x80\xf0", "", 5}, {"\x90\x80", "", 7}, {"\x80", "\U00010000", 4}}, "\U00010000"},
		{[]step{{"AB\xf0\x90\x80", "A", 4}, {"\x80\xcc", "B", 5}, {"\x81", "", 6}}, "\U00010000\u0301"},
		{[]step{{"\u0301\xcc", "", 3}, {"\xa3A", "\u0323\u0301", 1}}, "A"},
		// Starters that are composed with one ahead, and syllables.
		{[]step{{"\u09c7", "", 3}, {"\u09be", "", 6}, {"\u09c7", "\u09cb", 3}}, "\u09c7"},
		{[]step{{"\u1100", "", 3}, {"\u1161", "", 6}, {"\u11a8", "", 9}, {"\u1100", "\uac01", 3}, {"\uac00", "\u1100", 3}, {"\u11a8", "", 6}}, "\uac01"},
		{[]step{{"\U00011935\U00011930", "", 8}}, "\U00011938"},
		// What is not composed again does not start.
		{[]step{{"A\u2126\u0958", "", 7}, {"B", "A\u03a9\u0915\u093c", 1}}, "B"},
		{[]step{{"\u212b\u212b", "", 6}}, "\u00c5\u00c5"},
	} {
		s := stream.New()
		var in, out string
		for i, p := range x.steps {
			in, out = in+p.write, out+p.told
			b, e := s.Write([]byte(p.write))
			if string(b) != p.told || e != api.OK || s.Held() != p.held {
				t.Errorf("%+v: step %d told %+q, %d, Held %d", x.steps, i, b, int(e), s.Held())
			}
			gone := in[:len(in)-p.held]
			if want := (api.Mark{In: len(gone), Out: len(out), SumIn: sum.Of([]byte(gone)), SumOut: sum.Of([]byte(out))}); s.Mark() != want {
				t.Errorf("%+v: behind step %d the Mark is %+v, want %+v", x.steps, i, s.Mark(), want)
			}
		}
		b, e := s.End()
		out += x.end
		want := api.Mark{In: len(in), Out: len(out), SumIn: sum.Of([]byte(in)), SumOut: sum.Of([]byte(out))}
		if string(b) != x.end || e != api.OK || s.Held() != 0 || s.Mark() != want {
			t.Errorf("%+v: End = %+q, %d, Held %d, Mark %+v", x.steps, b, int(e), s.Held(), s.Mark())
		}
	}
}

// P10.2 to P10.4: the chapter's mark, with sums known from elsewhere.
func TestMark(t *testing.T) {
	s := stream.New()
	s.Write([]byte("12"))
	s.Write([]byte("345678"))
	s.Write([]byte("9"))
	if want := (api.Mark{In: 8, Out: 8, SumIn: 0x9ae0daaf, SumOut: 0x9ae0daaf}); s.Mark() != want {
		t.Errorf("Mark = %+v, want %+v", s.Mark(), want)
	}
	s.End()
	if want := (api.Mark{In: 9, Out: 9, SumIn: 0xcbf43926, SumOut: 0xcbf43926}); s.Mark() != want {
		t.Errorf("Mark = %+v, want %+v", s.Mark(), want)
	}
	s = stream.New()
	s.Write([]byte("e\u0301"))
	s.End()
	if want := (api.Mark{In: 3, Out: 2, SumIn: sum.Of([]byte("e\u0301")), SumOut: 0x0e048d3e}); s.Mark() != want {
		t.Errorf("Mark = %+v, want %+v", s.Mark(), want)
	}
}

// dead holds a stream in which there was an error against P10.2 and P10.3: whatever comes, the error is told.
func dead(t *testing.T, s *stream.Stream, want api.Mark) {
	t.Helper()
	for _, b := range []string{"", "A", "B", "\xa9", "\xff", "e\u0301x"} {
		if told, e := s.Write([]byte(b)); len(told) != 0 || e != api.ErrUTF8 || s.Held() != 0 || s.Mark() != want {
			t.Errorf("behind an error Write(% x) = %+q, %d, Held %d, Mark %+v, want %+v", b, told, int(e), s.Held(), s.Mark(), want)
		}
		if told, e := s.End(); len(told) != 0 || e != api.ErrUTF8 || s.Held() != 0 || s.Mark() != want {
			t.Errorf("behind an error End = %+q, %d, Held %d, Mark %+v, want %+v", told, int(e), s.Held(), s.Mark(), want)
		}
	}
}

// P10.2: the last piece makes what is held such as can't become right; nothing is told of it, though there are right
// bytes ahead, and the mark stays.
func TestWriteFaults(t *testing.T) {
	for _, x := range []struct {
		pieces []string
		in     int
	}{
		{[]string{"\xff"}, 0}, {[]string{"\x80"}, 0}, {[]string{"\xc0"}, 0}, {[]string{"\xc1\xbf"}, 0}, {[]string{"\xf5"}, 0}, {[]string{"\xf8"}, 0},
		{[]string{"\xe0\x9f"}, 0}, {[]string{"\xed\xa0"}, 0}, {[]string{"\xf0\x8f"}, 0}, {[]string{"\xf4\x90"}, 0}, {[]string{"\xed\xa0\x80"}, 0},
		{[]string{"\xc3A"}, 0}, {[]string{"\xc3\xc3"}, 0}, {[]string{"\xe2\x82A"}, 0}, {[]string{"\xf0\x9f\x98A"}, 0}, {[]string{"\xc3\xc3\xa9"}, 0},
		{[]string{"ABC\xff"}, 0}, {[]string{"\xffABC"}, 0}, {[]string{"A\xffB"}, 0}, {[]string{"A\xc3B\xc3"}, 0}, {[]string{"AB\xc3(\xe2"}, 0},
		{[]string{"A", "\xff"}, 0}, {[]string{"AB", "\xff"}, 1}, {[]string{"AB", "CD\xff"}, 1}, {[]string{"AB", "C", "\x80"}, 2},
		{[]string{"\xc3", "A"}, 0}, {[]string{"\xc3", "\xc3"}, 0}, {[]string{"\xe0", "\x9f"}, 0}, {[]string{"\xed", "\xa0"}, 0}, {[]string{"\xf4", "\x90"}, 0},
		{[]string{"AB\xe2", "\x82", "C"}, 1}, {[]string{"AB\xe2", "\x82", "", "C"}, 1}, {[]string{"AB\xf0\x9f", "\x98", "\xf0"}, 1},
		{[]string{"A\u0301", "\xcc", "A"}, 0}, {[]string{"A\u0301B", "\u0301", "\u0323\xcc\x7f"}, 3},
		{[]string{"\xe2\x82\xac\xe2", "\x82\xac\xac"}, 0},
	} {
		s := stream.New()
		all := []byte(strings.Join(x.pieces, ""))
		for i, p := range x.pieces {
			told, e := s.Write([]byte(p))
			if last := i == len(x.pieces)-1; (e == api.ErrUTF8) != last || e != api.OK && len(told) != 0 {
				t.Errorf("%+q: piece %d told %+q, %d", x.pieces, i, told, int(e))
			}
		}
		out, _ := norm.Text(all[:x.in])
		want := api.Mark{In: x.in, Out: len(out), SumIn: sum.Of(all[:x.in]), SumOut: sum.Of(out)}
		if s.Held() != 0 || s.Mark() != want {
			t.Errorf("%+q: Held %d, Mark %+v, want 0, %+v", x.pieces, s.Held(), s.Mark(), want)
		}
		dead(t, s, want)
	}
}

// P10.3: what may still become right is not, if nothing comes any more.
func TestEndFaults(t *testing.T) {
	for _, x := range []struct {
		b  string
		in int
	}{
		{"\xc3", 0}, {"\xe2\x82", 0}, {"\xf0\x9f\x98", 0}, {"A\xc3", 0}, {"AB\xc3", 1}, {"A\u0301B\u0323\xe2\x82", 3}, {"\u0301\xcc", 0},
	} {
		s := stream.New()
		if _, e := s.Write([]byte(x.b)); e != api.OK || s.Held() != len(x.b)-x.in {
			t.Errorf("Write(% x): %d, Held %d", x.b, int(e), s.Held())
		}
		want := s.Mark()
		if want.In != x.in {
			t.Errorf("behind Write(% x) the Mark is %+v", x.b, want)
		}
		if told, e := s.End(); len(told) != 0 || e != api.ErrUTF8 || s.Held() != 0 || s.Mark() != want {
			t.Errorf("behind Write(% x) End = %+q, %d, Held %d, Mark %+v", x.b, told, int(e), s.Held(), s.Mark())
		}
		dead(t, s, want)
	}
}

// P10.3: nothing is held behind an End, and what is written then goes on from there.
func TestEndGoesOn(t *testing.T) {
	s := stream.New()
	var in, out []byte
	for _, x := range []string{"A\u0301", "\u0301", "", "\u0323\u0301B", "e\u0301\u0323", "\u1100", "\u1161", "x"} {
		first, e := s.Write([]byte(x))
		last, endE := s.End()
		want, _ := norm.Text([]byte(x))
		if told := slices.Concat(first, last); e != api.OK || endE != api.OK || string(told) != string(want) {
			t.Errorf("%+q: told %+q and %+q, %d, %d", x, first, last, int(e), int(endE))
		}
		in, out = append(in, x...), append(out, want...)
		if want := (api.Mark{In: len(in), Out: len(out), SumIn: sum.Of(in), SumOut: sum.Of(out)}); s.Held() != 0 || s.Mark() != want {
			t.Errorf("%+q: Held %d, Mark %+v, want 0, %+v", x, s.Held(), s.Mark(), want)
		}
		if b, e := s.End(); len(b) != 0 || e != api.OK {
			t.Errorf("a second End = %+q, %d", b, int(e))
		}
	}
}

// P10.2 to P10.4, of nil.
func TestNil(t *testing.T) {
	var s *stream.Stream
	for _, b := range []string{"", "A", "\xff", "AB"} {
		if told, e := s.Write([]byte(b)); len(told) != 0 || e != api.ErrNil {
			t.Errorf("Write(% x) = % x, %d", b, told, int(e))
		}
	}
	if told, e := s.End(); len(told) != 0 || e != api.ErrNil {
		t.Errorf("End = % x, %d", told, int(e))
	}
	if s.Mark() != (api.Mark{}) || s.Held() != 0 {
		t.Errorf("Mark %+v, Held %d", s.Mark(), s.Held())
	}
}

// P10.2 to P10.5: short texts, right ones and others, cut in all ways.
func TestAllCuts(t *testing.T) {
	for _, x := range []string{
		"", "A", "ABCDEFGH", "A\u0301B\u0323", "e\u0301\u0323\u0345x", "\u0301\u0323A", "\u0323\u0301\u0315\u0301", "\u00e9\u0301\u00e9",
		"A\u1100\u1161\u11a8", "\u1100\uac00\u11a8x", "\u09c7\u09be\u09c7", "\u212b\u2126A\u0958", "\U00011935\U00011930A", "\U00010000\u0301\U0010ffff",
		"\U0001d160A\u0301", "x\U0002fa1d\uf900", "\xef\xbf\xbd\u0301\xef\xbf", "A\u0301\xff", "AB\xe2\x82A\u0301", "A\xcc\u0301B", "\u0301\xcc\xcc\x81",
		"A\u0301B\xf0\x9f\x98", "\xed\x9f\xbf\xed\xa0\x80", "A\xe0\x9f\x80B", "\u20ac\u20ac\x80A",
	} {
		cuts([]byte(x), func(pieces [][]byte) { checkText(t, pieces...) })
	}
}

// P10.2 to P10.5: all short lists out of some numbers, at once and byte by byte.
func TestAllShort(t *testing.T) {
	from := []uint32{0x41, 0x301, 0x323, 0xe9, 0x1100, 0x1161, 0x212b, 0x10000}
	count := 1
	for n := range 5 {
		for i := range count {
			l := make([]uint32, n)
			for k := range l {
				l[k], i = from[i%len(from)], i/len(from)
			}
			b, _ := code.Bytes(l)
			checkText(t, b)
			checkText(t, ones(b)...)
		}
		count *= len(from)
	}
}

// P10.2: each code point behind a letter: its place is the safe one, if it starts. Above the last that api's data have
// most are alike, and so some are enough.
func TestEachNumber(t *testing.T) {
	for c := uint32(0); c <= api.MaxCode; c++ {
		if c > 0x30000 {
			c += 96
		}
		b, e := code.Put(c)
		if e != api.OK {
			continue
		}
		want := len(b)
		if norm.Safe([]uint32{0x41, c}) == 0 {
			want++
		}
		s := stream.New()
		s.Write([]byte{'A'})
		if told, e := s.Write(b); s.Held() != want || e != api.OK || len(told) != 1+len(b)-want {
			t.Errorf("%x behind an A: Held %d, want %d; told %+q, %d", c, s.Held(), want, told, int(e))
		}
	}
}

// P10.2 to P10.5: texts of all kinds, cut by chance, whole ones and such with a byte spoilt, or with an end cut off.
func TestTexts(t *testing.T) {
	r := rand.New(rand.NewSource(20))
	for n := range 4000 {
		b := text(r, n%40)
		checkText(t, chance(r, b, 1+n%9)...)
		if len(b) > 0 {
			checkText(t, chance(r, b[:r.Intn(len(b))], 5)...)
			b[r.Intn(len(b))] = byte(r.Intn(256))
			checkText(t, chance(r, b, 5)...)
		}
	}
	checkText(t, text(r, 20000))
}

// P10.5: from each mark of a stream another one, that is given the bytes behind its In, tells the rest, and ends with
// the same mark.
func TestMarksGoOn(t *testing.T) {
	r := rand.New(rand.NewSource(21))
	for n := range 1500 {
		b := text(r, n%40)
		whole, _ := norm.Text(b)
		s := stream.New()
		marks := []api.Mark{s.Mark()}
		for _, p := range chance(r, b, 1+n%12) {
			s.Write(p)
			marks = append(marks, s.Mark())
		}
		s.End()
		for _, m := range append(marks, s.Mark()) {
			on, e := stream.From(m)
			if e != api.OK {
				t.Fatalf("From(%+v): %d", m, int(e))
			}
			var told []byte
			for _, p := range chance(r, b[m.In:], 1+r.Intn(9)) {
				piece, e := on.Write(p)
				if e != api.OK {
					t.Fatalf("of % x, from %d: %d", b, m.In, int(e))
				}
				told = append(told, piece...)
			}
			last, _ := on.End()
			told = append(told, last...)
			if string(told) != string(whole[m.Out:]) || on.Mark() != s.Mark() || on.Held() != 0 {
				t.Fatalf("of % x, from %d told %+q, want %+q; Mark %+v, want %+v", b, m.In, told, whole[m.Out:], on.Mark(), s.Mark())
			}
		}
	}
}

// P10.5: a stream that is stopped behind each piece, and gone on with from its mark, is told what it held again; bytes
// that are not right are so with stops, too.
func TestStops(t *testing.T) {
	r := rand.New(rand.NewSource(22))
	for n := range 3000 {
		b := text(r, 1+n%40)
		if n%3 == 0 {
			b[r.Intn(len(b))] = byte(r.Intn(256))
		}
		whole, wantE := norm.Text(b)
		var told []byte
		s, e := stream.New(), api.OK
		for at := 0; at < len(b) && e == api.OK; {
			next := min(at+1+r.Intn(7), len(b))
			s, _ = stream.From(s.Mark())
			var piece []byte
			piece, e = s.Write(b[s.Mark().In:next])
			told, at = append(told, piece...), next
		}
		last, endE := s.End()
		told = append(told, last...)
		if endE != wantE || e == api.OK && wantE == api.OK && string(told) != string(whole) {
			t.Fatalf("of % x told %+q, %d, want %+q, %d", b, told, int(endE), whole, int(wantE))
		}
	}
}

// P10.2 to P10.5: long texts in small pieces; of rows of marks, of which all is held till the end, what was looked at is
// not gone over again with each piece.
func TestLong(t *testing.T) {
	for _, x := range []struct {
		b    string
		by   int
		most int
	}{
		{strings.Repeat("e\u0301\u0323\u1100\u1161\u11a8\U00010000", 40000), api.Chunk, api.Chunk + 12},
		{strings.Repeat("plain text ", 20000), 1, 1},
		{strings.Repeat("e\u0301", 100000), 1, 4},
		{"e" + strings.Repeat("\u0301\u0323", 150000), 1, 600001},
		{strings.Repeat("\u212b\u1161", 100000), api.Chunk - 1, 600000},
		{strings.Repeat("\U0001d165", 100000), 3, 400000},
	} {
		whole, _ := norm.Text([]byte(x.b))
		s := stream.New()
		var told []byte
		for rest := []byte(x.b); len(rest) > 0; {
			n := min(x.by, len(rest))
			piece, e := s.Write(rest[:n])
			if e != api.OK {
				t.Fatal(int(e))
			}
			told, rest = append(told, piece...), rest[n:]
			if s.Held() > x.most || s.Held() != len(x.b)-len(rest)-s.Mark().In {
				t.Fatalf("%+q..: Held %d", x.b[:20], s.Held())
			}
		}
		last, e := s.End()
		told = append(told, last...)
		want := api.Mark{In: len(x.b), Out: len(whole), SumIn: sum.Of([]byte(x.b)), SumOut: sum.Of(whole)}
		if e != api.OK || !bytes.Equal(told, whole) || s.Held() != 0 || s.Mark() != want {
			t.Errorf("%+q..: told %d bytes, want %d; %d, Held %d, Mark %+v, want %+v", x.b[:20], len(told), len(whole), int(e), s.Held(), s.Mark(), want)
		}
	}
}

// spoil overwrites bytes with their spare room.
func spoil(b []byte) {
	b = b[:cap(b)]
	for i := range b {
		b[i] = 'z'
	}
}

// Rule 3: a piece is neither changed nor kept, and what is told is new memory, with its spare room: none of it is the
// stream's, a piece's, or that of another answer.
func TestNewMemory(t *testing.T) {
	r := rand.New(rand.NewSource(23))
	for n := range 2000 {
		b := text(r, n%30)
		kept := bytes.Clone(b)
		s, m := stream.New(), &model{}
		var answers [][]byte
		var wants []string
		at := 0
		for _, p := range chance(r, b, 7) {
			// With spare room behind it, which is not a piece's.
			room := append(bytes.Clone(p), "spare room"...)
			got, e := s.Write(room[:len(p)])
			want, wantE := m.write(kept[at : at+len(p)])
			check(t, "Write", s, m, got, e, want, wantE)
			if string(room) != string(p)+"spare room" {
				t.Fatalf("a piece was changed: % x", room)
			}
			spoil(room)
			if n%2 == 0 {
				spoil(got)
			} else {
				answers, wants = append(answers, got), append(wants, want)
			}
			at += len(p)
		}
		got, e := s.End()
		want, wantE := m.end()
		check(t, "End", s, m, got, e, want, wantE)
		spoil(got)
		for i, a := range answers {
			if string(a) != wants[i] {
				t.Errorf("an answer was changed to %+q from %+q", a, wants[i])
			}
			spoil(a)
		}
		if t.Failed() {
			t.Fatalf("of % x", kept)
		}
	}
}

// Rule 4: two streams have nothing in common, from one mark neither.
func TestTwo(t *testing.T) {
	one, other := stream.New(), stream.New()
	one.Write([]byte("AB"))
	other.Write([]byte("e"))
	one.Write([]byte("\xff"))
	if b, e := other.Write([]byte("\u0301x")); string(b) != "\u00e9" || e != api.OK || other.Held() != 1 {
		t.Errorf("told %+q, %d", b, int(e))
	}
	m := other.Mark()
	twin, _ := stream.From(m)
	twin.Write([]byte("A\u0301BCD"))
	if other.Mark() != m || other.Held() != 1 || one.Mark().In != 1 {
		t.Error("a stream has changed another one")
	}
	if b, e := other.Write([]byte("y")); string(b) != "x" || e != api.OK {
		t.Errorf("told %+q, %d", b, int(e))
	}
}
