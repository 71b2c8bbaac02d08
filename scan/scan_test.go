package scan_test

import (
	"bytes"
	"math"
	"math/rand"
	"testing"
	"unicode/utf8"

	"gesso/api"
	"gesso/code"
	"gesso/scan"
)

const most = 1 << 40

// marks are bytes at which table 3-7 changes its mind, and such beside them.
var marks = []byte{0x00, 0x41, 0x7f, 0x80, 0x8f, 0x90, 0x9f, 0xa0, 0xbf, 0xc0, 0xc1, 0xc2, 0xdf, 0xe0, 0xe1, 0xec, 0xed, 0xee, 0xef, 0xf0, 0xf1, 0xf3, 0xf4, 0xf5, 0xf8, 0xff}

// isOpen tells by the library's tables whether bytes are open.
func isOpen(b []byte) bool { return len(b) > 0 && !utf8.FullRune(b) }

// told is what a scan tells.
type told struct {
	seen, bad, fault, end int
	pending               string
}

func ask(s *scan.Scan) told {
	t := s.State()
	return told{t.Seen, t.Bad, s.Fault(), s.End(), string(t.Pending)}
}

// wanted is what a scan that was fed bytes is to tell, by the library's tables.
func wanted(b []byte) told {
	end := -1
	for at := 0; at < len(b); {
		r, n := utf8.DecodeRune(b[at:])
		if r == utf8.RuneError && n < 2 {
			end = at
			break
		}
		at += n
	}
	if end >= 0 && isOpen(b[end:]) {
		return told{len(b), -1, -1, end, string(b[end:])}
	}
	return told{len(b), end, end, end, ""}
}

func fed(t *testing.T, pieces ...[]byte) *scan.Scan {
	t.Helper()
	s := scan.New()
	for _, p := range pieces {
		if e := s.Feed(p); e != api.OK {
			t.Fatalf("Feed(% x): %d", p, int(e))
		}
	}
	return s
}

func check(t *testing.T, s *scan.Scan, b []byte) {
	t.Helper()
	if got, want := ask(s), wanted(b); got != want {
		t.Fatalf("% x: told %+v, want %+v", b, got, want)
	}
}

// each goes over all texts of so many bytes of marks.
func each(n int, do func([]byte)) {
	b := make([]byte, n)
	var fill func(int)
	fill = func(at int) {
		if at == n {
			do(b)
			return
		}
		for _, x := range marks {
			b[at] = x
			fill(at + 1)
		}
	}
	fill(0)
}

// P2.1.
func TestOpen(t *testing.T) {
	for _, x := range []struct {
		b    string
		open bool
	}{
		{"", false},
		{"A", false}, {"\x7f", false}, {"\x80", false}, {"\xbf", false}, {"\xc0", false}, {"\xc1", false},
		{"\xc2", true}, {"\xdf", true}, {"\xe0", true}, {"\xed", true}, {"\xef", true}, {"\xf0", true}, {"\xf4", true},
		{"\xf5", false}, {"\xf8", false}, {"\xff", false},
		{"\xc3\xa9", false}, {"\xc3A", false}, {"A\xc3", false}, {"\xc3\xc3", false},
		{"\xe0\x9f", false}, {"\xe0\xa0", true}, {"\xe0\xbf", true}, {"\xe0\xc0", false}, {"\xe1\x7f", false}, {"\xe1\x80", true},
		{"\xed\x80", true}, {"\xed\x9f", true}, {"\xed\xa0", false}, {"\xee\xbf", true},
		{"\xf0\x8f", false}, {"\xf0\x90", true}, {"\xf1\x80", true}, {"\xf4\x8f", true}, {"\xf4\x90", false}, {"\xf5\x80", false},
		{"\xe2\x82\xac", false}, {"\xe2\x82A", false}, {"\xe2\x82\xe2", false}, {"A\xe2\x82", false}, {"\xc3\xa9\xc3", false}, {"\xc3\xa9A", false},
		{"\xf0\x90\x80", true}, {"\xf0\x8f\xbf", false}, {"\xf0\x90\x7f", false}, {"\xf0\x90\xc0", false}, {"\xf4\x8f\xbf", true}, {"\xf4\x90\x80", false},
		{"\xf0\x90\x80\x80", false}, {"\xf0\x90\x80A", false}, {"\xc3\xa9\xe2\x82", false}, {"\xf0\x90\x80\x80\xf0", false}, {"AAAA\xc3", false},
	} {
		if got := scan.Open([]byte(x.b)); got != x.open {
			t.Errorf("Open(% x) = %v", x.b, got)
		}
	}
	if scan.Open(nil) {
		t.Error("Open(nil)")
	}
}

// P2.1, of all bytes that may be open.
func TestOpenAll(t *testing.T) {
	for i := range 1 << 16 {
		b := []byte{byte(i >> 8), byte(i)}
		if scan.Open(b[1:]) != isOpen(b[1:]) || scan.Open(b) != isOpen(b) {
			t.Fatalf("% x", b)
		}
	}
	for i := range 1 << 16 {
		for _, x := range []byte{0xc3, 0xe0, 0xe1, 0xed, 0xef, 0xf0, 0xf1, 0xf4, 0xf5} {
			if b := []byte{x, byte(i >> 8), byte(i)}; scan.Open(b) != isOpen(b) {
				t.Fatalf("% x", b)
			}
		}
	}
	for n := range 5 {
		each(n, func(b []byte) {
			if scan.Open(b) != isOpen(b) {
				t.Fatalf("% x", b)
			}
		})
	}
}

// P2.1: some bytes behind open ones make them those of one code point, and none do so behind others.
func TestOpenGoesOn(t *testing.T) {
	each(2, func(b []byte) {
		on := false
		for i := range 1 << 12 {
			c := append(bytes.Clone(b), byte(0x80+i>>6), byte(0x80+i%64))
			_, n := code.One(c)
			on = on || n > len(b)
		}
		if scan.Open(b) != on {
			t.Fatalf("% x: %v", b, on)
		}
	})
}

// P2.1: the bytes that are asked of stay, and what stands behind them does not count.
func TestOpenLeavesBytes(t *testing.T) {
	b := []byte("\xe2\x82\xac\xac\xac\xac")
	if !scan.Open(b[:1]) || !scan.Open(b[:2]) || scan.Open(b[:3]) {
		t.Error("bytes behind count")
	}
	if string(b) != "\xe2\x82\xac\xac\xac\xac" {
		t.Errorf("% x", b)
	}
}

// P2.2.
func TestNothing(t *testing.T) {
	for _, s := range []*scan.Scan{scan.New(), fed(t, nil), fed(t, []byte{}, nil)} {
		if got := ask(s); got != (told{0, -1, -1, -1, ""}) {
			t.Errorf("%+v", got)
		}
	}
}

// P2.2.
func TestFeed(t *testing.T) {
	for _, x := range []struct {
		b    string
		want told
	}{
		{"A", told{1, -1, -1, -1, ""}},
		{"\x00\x7f", told{2, -1, -1, -1, ""}},
		{"A\xc3", told{2, -1, -1, 1, "\xc3"}},
		{"A\xc3\xa9", told{3, -1, -1, -1, ""}},
		{"A\xc3B", told{3, 1, 1, 1, ""}},
		{"A\xc3\xc3\xa9", told{4, 1, 1, 1, ""}},
		{"\xe2\x82", told{2, -1, -1, 0, "\xe2\x82"}},
		{"\xe2\x82\xac", told{3, -1, -1, -1, ""}},
		{"\xe2\x82\xac\xf0\x9f\x98", told{6, -1, -1, 3, "\xf0\x9f\x98"}},
		{"\xe2\x82\xac\xf0\x9f\x98\x80", told{7, -1, -1, -1, ""}},
		{"\xe2\x82\xac\xf0\x9f\x98A", told{7, 3, 3, 3, ""}},
		{"\x80", told{1, 0, 0, 0, ""}},
		{"AB\xff", told{3, 2, 2, 2, ""}},
		{"AB\xff\xc3", told{4, 2, 2, 2, ""}},
		{"AB\xff\xc3\xa9\xff", told{6, 2, 2, 2, ""}},
		{"\xc0\x80", told{2, 0, 0, 0, ""}},
		{"\xe0\x9f", told{2, 0, 0, 0, ""}},
		{"\xed\xa0\x80", told{3, 0, 0, 0, ""}},
		{"\xf4\x8f\xbf\xbf\xf4\x90", told{6, 4, 4, 4, ""}},
		{"\xef\xbf\xbd", told{3, -1, -1, -1, ""}},
	} {
		s := fed(t, []byte(x.b))
		if got := ask(s); got != x.want {
			t.Errorf("% x: told %+v, want %+v", x.b, got, x.want)
		}
		if got, want := s.End(), code.Fault([]byte(x.b)); got != want {
			t.Errorf("% x: End %d, want %d", x.b, got, want)
		}
	}
}

// P2.2: what is told behind each piece hangs on all the bytes so far, and a fault stays.
func TestFeedOn(t *testing.T) {
	s := scan.New()
	for _, x := range []struct {
		b    string
		want told
	}{
		{"A\xc3", told{2, -1, -1, 1, "\xc3"}},
		{"", told{2, -1, -1, 1, "\xc3"}},
		{"\xa9", told{3, -1, -1, -1, ""}},
		{"\xf0", told{4, -1, -1, 3, "\xf0"}},
		{"\x9f", told{5, -1, -1, 3, "\xf0\x9f"}},
		{"\x98", told{6, -1, -1, 3, "\xf0\x9f\x98"}},
		{"\x80\xe2\x82", told{9, -1, -1, 7, "\xe2\x82"}},
		{"\xe2", told{10, 7, 7, 7, ""}},
		{"\x82\xac", told{12, 7, 7, 7, ""}},
		{"ABC\xc3", told{16, 7, 7, 7, ""}},
		{"\xff", told{17, 7, 7, 7, ""}},
	} {
		if e := s.Feed([]byte(x.b)); e != api.OK {
			t.Fatal(int(e))
		}
		if got := ask(s); got != x.want {
			t.Errorf("behind % x: told %+v, want %+v", x.b, got, x.want)
		}
		if again := ask(s); again != x.want {
			t.Errorf("asked again: %+v", again)
		}
	}
}

// P2.2, of all short texts of the table's edges.
func TestFeedEdges(t *testing.T) {
	for n := range 4 {
		each(n, func(b []byte) { check(t, fed(t, b), b) })
	}
	each(3, func(b []byte) {
		b = append(append([]byte("\xc3\xa9\xf1"), b...), 'A')
		check(t, fed(t, b), b)
	})
}

// P2.2: no more than 2^40 bytes, and nothing of a piece that is too long is fed.
func TestFeedRange(t *testing.T) {
	for _, x := range []struct {
		seen int
		b    string
		e    api.Errno
	}{
		{most, "", api.OK}, {most, "A", api.ErrRange}, {most, "\xff\xff", api.ErrRange},
		{most - 1, "A", api.OK}, {most - 1, "AB", api.ErrRange}, {most - 1, "\xff", api.OK}, {most - 1, "\xc3\xa9", api.ErrRange},
		{most - 2, "\xc3\xa9", api.OK}, {most - 2, "\xff\xc3\xa9", api.ErrRange}, {most - 3, "AB", api.OK},
	} {
		s, e := scan.From(scan.State{Seen: x.seen, Bad: -1})
		if e != api.OK {
			t.Fatal(int(e))
		}
		ahead := ask(s)
		if got := s.Feed([]byte(x.b)); got != x.e {
			t.Errorf("%d, % x: %d", x.seen, x.b, int(got))
		}
		want := told{x.seen + len(x.b), -1, -1, -1, ""}
		if x.e != api.OK {
			want = ahead
		} else if x.b == "\xff" {
			want.bad, want.fault, want.end = x.seen, x.seen, x.seen
		}
		if got := ask(s); got != want {
			t.Errorf("%d, % x: told %+v, want %+v", x.seen, x.b, got, want)
		}
	}
}

// P2.2: the limit holds with bytes pending, and behind a fault, and the scan goes on behind an error.
func TestFeedRangeOn(t *testing.T) {
	s, e := scan.From(scan.State{Seen: most - 1, Bad: -1, Pending: []byte("\xe2\x82")})
	if e != api.OK {
		t.Fatal(int(e))
	}
	if s.Feed([]byte("\xacA")) != api.ErrRange || ask(s) != (told{most - 1, -1, -1, most - 3, "\xe2\x82"}) {
		t.Errorf("%+v", ask(s))
	}
	if s.Feed([]byte("\xac")) != api.OK || ask(s) != (told{most, -1, -1, -1, ""}) {
		t.Errorf("%+v", ask(s))
	}
	s, _ = scan.From(scan.State{Seen: most - 1, Bad: 5})
	if s.Feed([]byte("AB")) != api.ErrRange || s.Feed([]byte("A")) != api.OK || s.Feed([]byte("A")) != api.ErrRange || s.Feed(nil) != api.OK {
		t.Error("behind a fault")
	}
	if got := ask(s); got != (told{most, 5, 5, 5, ""}) {
		t.Errorf("%+v", got)
	}
}

// P2.2: of nil.
func TestNil(t *testing.T) {
	var s *scan.Scan
	for _, b := range []string{"", "A", "\xff"} {
		if e := s.Feed([]byte(b)); e != api.ErrNil {
			t.Errorf("Feed(% x) = %d", b, int(e))
		}
	}
	if s.Feed(nil) != api.ErrNil {
		t.Error("Feed(nil)")
	}
	if got := s.State(); got.Seen != 0 || got.Bad != -1 || len(got.Pending) != 0 {
		t.Errorf("%+v", got)
	}
	if s.Fault() != -1 || s.End() != -1 {
		t.Error(s.Fault(), s.End())
	}
}

// P2.2: pieces are neither changed nor kept, and a state shares nothing with its scan.
func TestOwnMemory(t *testing.T) {
	room := []byte("A\xf0\x9f\x98\x80B")
	piece := room[:3]
	s := fed(t, piece)
	if string(room) != "A\xf0\x9f\x98\x80B" {
		t.Errorf("a piece was changed: % x", room)
	}
	clear(room)
	state := s.State()
	all := state.Pending[:cap(state.Pending)]
	for i := range all {
		all[i] = 'x'
	}
	if got := ask(s); got != (told{3, -1, -1, 1, "\xf0\x9f"}) {
		t.Errorf("%+v", got)
	}
	kept := s.State()
	s.Feed([]byte("\x98\x80\xe2\x82"))
	if string(kept.Pending) != "\xf0\x9f" || kept.Seen != 3 {
		t.Errorf("a state was changed: %+v", kept)
	}
	if got := ask(s); got != (told{7, -1, -1, 5, "\xe2\x82"}) {
		t.Errorf("%+v", got)
	}
	one, two := scan.New(), scan.New()
	one.Feed([]byte("A\xff"))
	if two.Feed([]byte("\xc3")); ask(two) != (told{1, -1, -1, 0, "\xc3"}) || ask(one) != (told{2, 1, 1, 1, ""}) {
		t.Errorf("%+v %+v", ask(one), ask(two))
	}
}

// P2.3.
func TestFromRefuses(t *testing.T) {
	for _, x := range []scan.State{
		{Seen: -1, Bad: -1}, {Seen: math.MinInt, Bad: -1}, {Seen: -1, Bad: -2}, {Seen: -5, Bad: -6, Pending: []byte("A")},
		{Seen: most + 1, Bad: -1}, {Seen: math.MaxInt, Bad: -1}, {Seen: most + 1, Bad: 0}, {Seen: most + 1, Bad: -1, Pending: []byte("\xc3")},
		{Seen: 0, Bad: -2}, {Seen: 3, Bad: -2}, {Seen: 3, Bad: math.MinInt}, {Seen: 3, Bad: -2, Pending: []byte("\xc3")},
		{}, {Seen: 0, Bad: 0}, {Seen: 0, Bad: 1}, {Seen: 1, Bad: 1}, {Seen: 3, Bad: 3}, {Seen: 3, Bad: 4}, {Seen: 3, Bad: math.MaxInt}, {Seen: most, Bad: most},
		{Seen: 1, Bad: -1, Pending: []byte("A")}, {Seen: 9, Bad: -1, Pending: []byte("\x80")}, {Seen: 9, Bad: -1, Pending: []byte("\xff")},
		{Seen: 9, Bad: -1, Pending: []byte("\xc3\xa9")}, {Seen: 9, Bad: -1, Pending: []byte("A\xc3")}, {Seen: 9, Bad: -1, Pending: []byte("\xe0\x9f")},
		{Seen: 9, Bad: -1, Pending: []byte("\xe2\x82\xac")}, {Seen: 9, Bad: -1, Pending: []byte("\xf0\x9f\x98\x80")}, {Seen: 9, Bad: -1, Pending: []byte("\xf0\x9f\x98\xf0\x9f")},
		{Seen: 0, Bad: -1, Pending: []byte("\xc3")}, {Seen: 1, Bad: -1, Pending: []byte("\xe2\x82")}, {Seen: 2, Bad: -1, Pending: []byte("\xf0\x9f\x98")},
		{Seen: 9, Bad: 0, Pending: []byte("\xc3")}, {Seen: 9, Bad: 8, Pending: []byte("\xc3")}, {Seen: 1, Bad: 0, Pending: []byte("\xc3")}, {Seen: 9, Bad: 2, Pending: []byte("A")},
	} {
		if s, e := scan.From(x); s != nil || e != api.ErrArg {
			t.Errorf("From(%+v) = %v, %d", x, s, int(e))
		}
	}
}

// P2.3.
func TestFromTakes(t *testing.T) {
	for _, x := range []struct {
		state scan.State
		want  told
	}{
		{scan.State{Seen: 0, Bad: -1}, told{0, -1, -1, -1, ""}},
		{scan.State{Seen: 0, Bad: -1, Pending: []byte{}}, told{0, -1, -1, -1, ""}},
		{scan.State{Seen: 7, Bad: -1}, told{7, -1, -1, -1, ""}},
		{scan.State{Seen: 1, Bad: 0}, told{1, 0, 0, 0, ""}},
		{scan.State{Seen: 7, Bad: 6}, told{7, 6, 6, 6, ""}},
		{scan.State{Seen: 7, Bad: 2, Pending: []byte{}}, told{7, 2, 2, 2, ""}},
		{scan.State{Seen: 1, Bad: -1, Pending: []byte("\xc3")}, told{1, -1, -1, 0, "\xc3"}},
		{scan.State{Seen: 2, Bad: -1, Pending: []byte("\xe0\xa0")}, told{2, -1, -1, 0, "\xe0\xa0"}},
		{scan.State{Seen: 3, Bad: -1, Pending: []byte("\xf4\x8f\xbf")}, told{3, -1, -1, 0, "\xf4\x8f\xbf"}},
		{scan.State{Seen: 9, Bad: -1, Pending: []byte("\xf4\x8f\xbf")}, told{9, -1, -1, 6, "\xf4\x8f\xbf"}},
		{scan.State{Seen: most, Bad: -1}, told{most, -1, -1, -1, ""}},
		{scan.State{Seen: most, Bad: most - 1}, told{most, most - 1, most - 1, most - 1, ""}},
		{scan.State{Seen: most, Bad: -1, Pending: []byte("\xc3")}, told{most, -1, -1, most - 1, "\xc3"}},
	} {
		s, e := scan.From(x.state)
		if e != api.OK {
			t.Errorf("From(%+v): %d", x.state, int(e))
			continue
		}
		if got := ask(s); got != x.want {
			t.Errorf("From(%+v) told %+v, want %+v", x.state, got, x.want)
		}
	}
}

// P2.3: the state that was given is neither changed nor kept.
func TestFromOwnMemory(t *testing.T) {
	room := []byte("\xf0\x9fABC")
	s, e := scan.From(scan.State{Seen: 2, Bad: -1, Pending: room[:2]})
	if e != api.OK {
		t.Fatal(int(e))
	}
	s.Feed([]byte("\x98"))
	if string(room) != "\xf0\x9fABC" {
		t.Errorf("changed: % x", room)
	}
	clear(room)
	if got := ask(s); got != (told{3, -1, -1, 0, "\xf0\x9f\x98"}) {
		t.Errorf("%+v", got)
	}
	twin, _ := scan.From(s.State())
	twin.Feed([]byte("\x80"))
	s.Feed([]byte("A"))
	if ask(twin) != (told{4, -1, -1, -1, ""}) || ask(s) != (told{4, 0, 0, 0, ""}) {
		t.Errorf("%+v %+v", ask(twin), ask(s))
	}
}

// P2.4 and P2.3: three pieces, wherever they are cut, with or without a stop between, tell what one piece tells.
func TestCuts(t *testing.T) {
	for _, x := range []string{
		"", "A", "A\xc3\xa9", "\xe2\x82\xac\xf0\x9f\x98\x80", "A\xf0\x9f\x98", "A\xf0\x9f\x98A\xc3", "\xf0\x9f\x98\xf0\x9f\x98\x80", "\xc3\xa9\xe0\x9f\x80A",
		"\xed\x9f\xbf\xed\xa0\x80", "\xf4\x8f\xbf\xbf\xf4\x90\x80\x80", "AB\xff", "\xff\xc3\xa9\xe2", "\xef\xbf\xbd\xef\xbf", "\xc3\xc3\xa9",
	} {
		b := []byte(x)
		for i := range len(b) + 1 {
			for j := i; j <= len(b); j++ {
				check(t, fed(t, b[:i], b[i:j], b[j:]), b)
				check(t, stopped(t, b[:i], b[i:j], b[j:]), b)
			}
		}
	}
}

// stopped feeds pieces, each to a scan made of the state of the one ahead.
func stopped(t *testing.T, pieces ...[]byte) *scan.Scan {
	t.Helper()
	s := scan.New()
	for _, p := range pieces {
		on, e := scan.From(s.State())
		if e != api.OK {
			t.Fatalf("From(%+v): %d", s.State(), int(e))
		}
		if on.Feed(p) != api.OK {
			t.Fatal("Feed")
		}
		s = on
	}
	return s
}

// P2.4, of chance texts, mostly right, in chance pieces.
func TestCutsByChance(t *testing.T) {
	r := rand.New(rand.NewSource(2))
	for range 3000 {
		var b []byte
		for range r.Intn(40) {
			b = utf8.AppendRune(b, []rune{'A', 0xe9, 0x7ff, 0x800, 0x20ac, 0xfffd, 0x10000, 0x10ffff}[r.Intn(8)])
		}
		if len(b) > 0 && r.Intn(2) == 0 {
			b[r.Intn(len(b))] = marks[r.Intn(len(marks))]
		}
		b = b[:len(b)-r.Intn(min(3, len(b)+1))]
		var pieces [][]byte
		for rest := b; len(rest) > 0; {
			n := r.Intn(min(6, len(rest)) + 1)
			pieces, rest = append(pieces, rest[:n]), rest[n:]
		}
		check(t, fed(t, b), b)
		check(t, fed(t, pieces...), b)
		check(t, stopped(t, pieces...), b)
	}
}

// P2.4: a long text, as one piece and in pieces that cut its code points.
func TestLong(t *testing.T) {
	b := bytes.Repeat([]byte("A\xc3\xa9\xe2\x82\xac\xf0\x9f\x98\x80"), 20000)
	check(t, fed(t, b), b)
	s := scan.New()
	for at := 0; at < len(b); at += api.Chunk - 1 {
		s.Feed(b[at:min(at+api.Chunk-1, len(b))])
	}
	check(t, s, b)
	s.Feed([]byte("\xa9"))
	check(t, s, append(b, 0xa9))
}
