package feed_test

import (
	"fmt"
	"math"
	"math/rand"
	"strings"
	"testing"
	"unsafe"

	"herald/api"
	"herald/feed"
	"herald/frame"
)

const preface = "PRI * HTTP/2.0\r\n\r\nSM\r\n\r\n"

var (
	none     = told{}
	wrong    = told{fault: api.Fault{Code: 1}}
	tooLong  = told{fault: api.Fault{Code: 6}}
	badFrame = "\x00\x00\x04\x02\x00\x00\x00\x00\x05abcd" // a Priority of four bytes
	badTold  = told{fault: api.Fault{Code: 6, Stream: 5}}
)

func next(f *feed.Feed) told {
	x, ok, fault := f.Next()
	return told{x, ok, fault}
}

// wantNext asks once, and holds Waiting behind it too.
func wantNext(t *testing.T, promise string, f *feed.Feed, want told, waiting int) {
	t.Helper()
	if got := next(f); !same(got, want) {
		t.Errorf("%s: Next tells %s, want %s", promise, shown(got), shown(want))
	}
	wantWaiting(t, promise, f, waiting)
}

func wantWaiting(t *testing.T, promise string, f *feed.Feed, want int) {
	t.Helper()
	if n := f.Waiting(); n != want {
		t.Errorf("%s: Waiting tells %d, want %d", promise, n, want)
	}
}

// wantBroken: whatever comes and is asked, it is the one fault.
func wantBroken(t *testing.T, f *feed.Feed, want told) {
	t.Helper()
	for _, chunk := range []string{"", "x", preface, preface + bytesA, bytesA, bytesB, badFrame, "PRX", strings.Repeat("\x00", 100)} {
		wantNext(t, "P7.4", f, want, 0)
		f.Push(chunk)
		wantWaiting(t, "P7.4", f, 0)
		wantNext(t, "P7.4", f, want, 0)
		f.SetMost(65536)
		wantWaiting(t, "P7.4", f, 0)
		wantNext(t, "P7.4", f, want, 0)
	}
}

func write(f api.Frame) string {
	b, e := frame.Write(f)
	if e != api.OK {
		panic(e)
	}
	return b
}

// The two right frames of the chapter's examples.
const (
	bytesA = "\x00\x00\x02\x00\x01\x00\x00\x00\x01hi"
	bytesB = "\x00\x00\x0c\x04\x00\x00\x00\x00\x00\x00\x04\x00\x00\x00\x64\x00\x02\x00\x00\x00\x01"
)

func frameA() told {
	return told{f: api.Frame{Flags: 1, Stream: 1, Data: "hi"}, ok: true}
}

func frameB() told {
	return told{f: api.Frame{Type: 4, Params: []api.Param{{ID: 4, Value: 100}, {ID: 2, Value: 1}}}, ok: true}
}

func TestExamples(t *testing.T) {
	f := feed.New(false, 16384)
	wantNext(t, "P7.1", f, none, 0)
	f.Push(bytesA + bytesB[:1])
	wantWaiting(t, "P7.1", f, 12)
	wantNext(t, "P7.1", f, frameA(), 1)
	wantNext(t, "P7.1", f, none, 1)
	f.Push(bytesB[1:])
	wantNext(t, "P7.1", f, frameB(), 0)
	wantNext(t, "P7.1", f, none, 0)

	f = feed.New(true, 16384)
	f.Push("PRI * HTTP/2.0")
	wantNext(t, "P7.1", f, none, 14)
	f.Push(preface[14:] + bytesA)
	wantNext(t, "P7.1", f, frameA(), 0)
	f = feed.New(true, 16384)
	f.Push("GET ")
	wantNext(t, "P7.1", f, wrong, 0)
	f.Push(preface)
	wantNext(t, "P7.1", f, wrong, 0)
	f = feed.New(true, 16384)
	f.Push("PRX")
	wantNext(t, "P7.1", f, wrong, 0)

	f = feed.New(false, 16384)
	f.Push(bytesOf("00 40 01 00 00 00 00 00 01"))
	wantNext(t, "P7.1", f, tooLong, 0)
	wantBroken(t, f, tooLong)
	f = feed.New(false, 16384)
	f.Push(bytesOf("00 40 01 00 00 00 00 00 01"))
	f.SetMost(65536)
	wantNext(t, "P7.1", f, none, 9)

	f = feed.New(false, 16384)
	f.Push(bytesOf("00 00 04 02 00 00 00 00 05 01 02 03 04") + bytesA)
	wantNext(t, "P7.1", f, badTold, 11)
	wantNext(t, "P7.1", f, frameA(), 0)
}

func TestNothingPushed(t *testing.T) {
	for _, server := range []bool{false, true} {
		f := feed.New(server, 16384)
		wantWaiting(t, "P7.1", f, 0)
		for range 3 {
			f.Push("")
			wantWaiting(t, "P7.1", f, 0)
			wantNext(t, "P7.1", f, none, 0)
		}
		f.Push(preface[:5])
		f.Push("")
		wantWaiting(t, "P7.1", f, 5)
		wantNext(t, "P7.1", f, none, 5)
	}
}

// TestClientHasNoPreface: its bytes are a frame's, one that is too long.
func TestClientHasNoPreface(t *testing.T) {
	f := feed.New(false, 65536)
	f.Push(preface[:8])
	wantNext(t, "P7.1", f, none, 8)
	f.Push(preface[8:9])
	wantNext(t, "P7.1", f, tooLong, 0)
	wantBroken(t, f, tooLong)
}

// TestStreamFault: it is told once, and the feed goes on.
func TestStreamFault(t *testing.T) {
	for _, server := range []bool{false, true} {
		f, ahead := feed.New(server, 16384), ""
		if server {
			ahead = preface
		}
		f.Push(ahead + badFrame[:12])
		wantNext(t, "P7.1", f, none, 12)
		f.Push(badFrame[12:])
		wantWaiting(t, "P7.1", f, 13)
		wantNext(t, "P7.1", f, badTold, 0)
		wantNext(t, "P7.1", f, none, 0)
		f.Push(badFrame + bytesA + badFrame + badFrame + bytesB[:20])
		wantNext(t, "P7.1", f, badTold, 11+13+13+20)
		wantNext(t, "P7.1", f, frameA(), 13+13+20)
		wantNext(t, "P7.1", f, badTold, 13+20)
		wantNext(t, "P7.1", f, badTold, 20)
		wantNext(t, "P7.1", f, none, 20)
		f.Push(bytesB[20:])
		wantNext(t, "P7.1", f, frameB(), 0)
	}
}

// TestConnectionFault: one of each kind that Read knows, behind a right frame and
// a stream's fault, with right frames behind.
func TestConnectionFault(t *testing.T) {
	for _, x := range []struct {
		digits string
		want   told
	}{
		{"01 00 01 00 00 00 00 00 01", tooLong},
		{"ff ff ff ff ff ff ff ff ff", tooLong},
		{"00 00 00 00 00 00 00 00 00", wrong},
		{"00 00 04 02 00 00 00 00 00 01 02 03 04", wrong},
		{"00 00 00 04 00 00 00 00 01", wrong},
		{"00 00 00 03 00 00 00 00 01", tooLong},
		{"00 00 05 04 00 00 00 00 00 01 02 03 04 05", tooLong},
		{"00 00 01 04 01 00 00 00 00 01", tooLong},
		{"00 00 07 06 00 00 00 00 00 01 02 03 04 05 06 07", tooLong},
		{"00 00 00 00 08 00 00 00 01", tooLong},
		{"00 00 01 00 08 00 00 00 01 01", wrong},
	} {
		b := bytesOf(x.digits)
		for _, server := range []bool{false, true} {
			f, ahead := feed.New(server, 65536), ""
			if server {
				ahead = preface
			}
			f.Push(ahead + bytesA + badFrame + b + bytesA)
			wantNext(t, "P7.1", f, frameA(), 13+len(b)+11)
			wantNext(t, "P7.1", f, badTold, len(b)+11)
			wantWaiting(t, "P7.1", f, len(b)+11)
			wantNext(t, "P7.1", f, x.want, 0)
			wantBroken(t, f, x.want)
		}
	}
}

// TestSetMost: a frame's length is held against the most of the moment at which
// Next is asked, ahead of its nine bytes and behind them.
func TestSetMost(t *testing.T) {
	mosts := []int64{math.MinInt64, -1, 0, 1, 16383, 16384, 16385, 65535, 65536, 65537, 1 << 24, math.MaxInt64}
	counts := func(most int64) int { return int(min(max(most, 16384), 65536)) }
	for _, length := range []int{16383, 16384, 16385, 65535, 65536, 65537, 1<<24 - 1} {
		head := string([]byte{byte(length >> 16), byte(length >> 8), byte(length), 9, 0, 0, 0, 0, 1})
		for _, first := range mosts {
			f := feed.New(false, first)
			f.Push(head[:8])
			wantNext(t, "P7.1", f, none, 8)
			f.Push(head[8:])
			if length > counts(first) {
				wantNext(t, "P7.1", f, tooLong, 0)
			} else {
				wantNext(t, "P7.1", f, none, 9)
			}
			for _, then := range mosts {
				wantSetMost(t, head, length, first, then, counts(then))
			}
		}
	}
}

func wantSetMost(t *testing.T, head string, length int, first, then int64, most int) {
	t.Helper()
	ahead, behind := feed.New(false, first), feed.New(false, first)
	ahead.SetMost(then)
	ahead.Push(head)
	behind.Push(head)
	behind.SetMost(then)
	for _, f := range []*feed.Feed{ahead, behind} {
		wantWaiting(t, "P7.1", f, 9)
		if length > most {
			wantNext(t, "P7.1", f, tooLong, 0)
			f.SetMost(65536)
			wantNext(t, "P7.4", f, tooLong, 0)
		} else {
			wantNext(t, "P7.1", f, none, 9)
		}
	}
}

// TestSetMostUnderWay: a frame that was not too long is, once most is less.
func TestSetMostUnderWay(t *testing.T) {
	long := told{f: api.Frame{Type: 9, Stream: 1, Data: strings.Repeat("x", 16385)}, ok: true}
	b := write(long.f)
	f := feed.New(false, 65536)
	f.Push(b[:1000])
	wantNext(t, "P7.1", f, none, 1000)
	f.SetMost(16385)
	wantNext(t, "P7.1", f, none, 1000)
	f.Push(b[1000:] + b)
	wantNext(t, "P7.1", f, long, len(b))
	f.SetMost(16384)
	wantWaiting(t, "P7.1", f, len(b))
	wantNext(t, "P7.1", f, tooLong, 0)
	wantBroken(t, f, tooLong)

	f = feed.New(false, 16384)
	f.SetMost(65536)
	f.SetMost(0)
	f.SetMost(16385)
	f.Push(b)
	wantNext(t, "P7.1", f, long, 0)
}

// TestParamsAreNew: they can be written over, each frame's alone.
func TestParamsAreNew(t *testing.T) {
	f, g := feed.New(false, 16384), feed.New(false, 16384)
	f.Push(bytesB + bytesB + bytesB[:12])
	g.Push(bytesB)
	first := next(f)
	scribble(first.f.Params)
	second := next(f)
	if !same(second, frameB()) {
		t.Errorf("P7.1: with the first frame's Params written over the second is %s", shown(second))
	}
	scribble(second.f.Params)
	f.Push(bytesB[12:])
	wantNext(t, "P7.1", f, frameB(), 0)
	wantNext(t, "P7.1", g, frameB(), 0)
	if second.f.Params[0] != (api.Param{ID: -7, Value: -7}) || first.f.Params[1] != (api.Param{ID: -7, Value: -7}) {
		t.Errorf("P7.1: Params that were written over came back")
	}
}

// scribble writes over the spare room too.
func scribble(list []api.Param) {
	list = list[:cap(list)]
	for i := range list {
		list[i] = api.Param{ID: -7, Value: -7}
	}
}

// TestChunksAreNotKept: neither the feed nor its frames hold on to a chunk's
// memory, which is not as constant as a text's here.
func TestChunksAreNotKept(t *testing.T) {
	chunk := []byte(bytesA + bytesB + bytesA[:4])
	f := feed.New(false, 16384)
	f.Push(unsafe.String(&chunk[0], len(chunk)))
	a := next(f)
	clear(chunk)
	wantNext(t, "P7.1", f, frameB(), 4)
	f.Push(bytesA[4:])
	wantNext(t, "P7.1", f, frameA(), 0)
	f.Push(strings.Repeat(bytesB, 100))
	if !same(a, frameA()) {
		t.Errorf("P7.1: a frame that was told is %s, with its chunk written over", shown(a))
	}
}

// TestSideBySide: what is done with one feed shows in no other.
func TestSideBySide(t *testing.T) {
	f, g, h := feed.New(false, 16384), feed.New(false, 65536), feed.New(true, 16384)
	f.Push(bytesA[:5])
	g.Push(bytesB[:7])
	h.Push(preface[:20])
	f.Push(bytesA[5:] + badFrame + bytesB)
	wantNext(t, "P7.1", f, frameA(), 13+21)
	wantWaiting(t, "P7.1", g, 7)
	wantWaiting(t, "P7.1", h, 20)
	wantNext(t, "P7.1", f, badTold, 21)
	wantNext(t, "P7.1", g, none, 7)
	h.Push("x")
	wantNext(t, "P7.1", h, wrong, 0)
	wantNext(t, "P7.1", f, frameB(), 0)
	wantNext(t, "P7.1", g, none, 7)
	f.SetMost(16384)
	g.Push(bytesB[7:] + bytesOf("00 40 01 00 00 00 00 00 01"))
	f.Push(bytesOf("00 40 01 00 00 00 00 00 01"))
	wantNext(t, "P7.1", f, tooLong, 0)
	wantNext(t, "P7.1", g, frameB(), 9)
	wantNext(t, "P7.1", g, none, 9)
	wantNext(t, "P7.1", h, wrong, 0)
	wantNext(t, "P7.1", feed.New(true, 16384), none, 0)
}

// wantCalls does the calls on a feed and on the model, and asks for Waiting behind
// each.
func wantCalls(t *testing.T, server bool, most int64, calls []call) {
	t.Helper()
	f, m := feed.New(server, most), newModel(server, most)
	for i, c := range calls {
		switch c.kind {
		case pushes:
			f.Push(c.chunk)
			m.push(c.chunk)
		case asks:
			if got, want := next(f), m.next(); !same(got, want) {
				t.Fatalf("P7.1: server %v, most %d, the calls %s: at %d Next tells %s, want %s", server, most, shownCalls(calls), i, shown(got), shown(want))
			}
		case sets:
			f.SetMost(c.most)
			m.setMost(c.most)
		}
		if f.Waiting() != m.waiting() {
			t.Fatalf("P7.1: server %v, most %d, the calls %s: at %d Waiting tells %d, want %d", server, most, shownCalls(calls), i, f.Waiting(), m.waiting())
		}
	}
}

const (
	pushes = iota
	asks
	sets
)

type call struct {
	kind  int
	chunk string
	most  int64
}

func shownCalls(calls []call) string {
	list := make([]string, len(calls))
	for i, c := range calls {
		switch c.kind {
		case pushes:
			list[i] = fmt.Sprintf("Push(%.30q of %d)", c.chunk, len(c.chunk))
		case asks:
			list[i] = "Next"
		case sets:
			list[i] = fmt.Sprintf("SetMost(%d)", c.most)
		}
	}
	return strings.Join(list, " ")
}

// TestEveryOrder: all lists of five calls out of a few.
func TestEveryOrder(t *testing.T) {
	some := []call{
		{kind: asks},
		{kind: pushes, chunk: preface},
		{kind: pushes, chunk: bytesA},
		{kind: pushes, chunk: badFrame},
		{kind: pushes, chunk: "\x00\x40\x01\x00\x00\x00\x00\x00\x01"},
		{kind: pushes, chunk: "\x00"},
		{kind: sets, most: 65536},
		{kind: sets, most: 0},
	}
	calls := make([]call, 0, 11)
	var all func(left int)
	all = func(left int) {
		if left == 0 {
			list := append(calls, call{kind: asks}, call{kind: asks}, call{kind: asks}, call{kind: asks}, call{kind: asks}, call{kind: asks})
			wantCalls(t, false, 16384, list)
			wantCalls(t, true, 16384, list)
			wantCalls(t, true, 65536, list)
			return
		}
		for _, c := range some {
			calls = append(calls, c)
			all(left - 1)
			calls = calls[:len(calls)-1]
		}
	}
	all(5)
}

// randomBytes are frames of all kinds, some of them bent.
func randomBytes(r *rand.Rand) string {
	b := ""
	for range 1 + r.Intn(8) {
		list := rightFrames()
		x := write(list[r.Intn(len(list))])
		switch r.Intn(12) {
		case 0:
			x = badFrame
		case 1:
			at := r.Intn(len(x))
			x = x[:at] + string([]byte{byte(r.Intn(256))}) + x[at+1:]
		case 2:
			x = string([]byte{0, byte(63 + r.Intn(3)), byte(r.Intn(2)), 0, 0, 0, 0, 0, 1})
			x += strings.Repeat("d", r.Intn(40000))
		}
		b += x
	}
	return b
}

func TestRandomCalls(t *testing.T) {
	r := rand.New(rand.NewSource(7))
	for range 1500 {
		server, b := r.Intn(2) == 0, randomBytes(r)
		if server && r.Intn(8) > 0 {
			b = preface + b
		}
		var calls []call
		for b != "" {
			n := min(1+r.Intn([]int{3, 30, 30000}[r.Intn(3)]), len(b))
			calls = append(calls, call{kind: pushes, chunk: b[:n]})
			b = b[n:]
			for range r.Intn(4) {
				calls = append(calls, call{kind: asks})
			}
			if r.Intn(10) == 0 {
				calls = append(calls, call{kind: sets, most: []int64{-1, 16384, 16385, 65536, 1 << 40}[r.Intn(5)]})
			}
		}
		for range 10 {
			calls = append(calls, call{kind: asks})
		}
		wantCalls(t, server, 16384, calls)
	}
}

// FuzzCalls reads calls out of bytes: 0xf0 and above begin one that asks, or sets
// most; all else is pushed as it stands.
func FuzzCalls(f *testing.F) {
	f.Add(true, []byte(preface+bytesA+"\xf0"+bytesB+"\xf0\xf0"))
	f.Add(false, []byte(bytesA+"\xf0"+badFrame+"\xf0\xf0\x00\x40\x01\xf1\xf0"))
	f.Add(false, []byte("\x00\x40\x01\x00\x00\x00\x00\x00\x01\xf2\xf0\xf1\xf0"))
	f.Fuzz(func(t *testing.T, server bool, b []byte) {
		calls, chunk := []call{}, ""
		for _, x := range append(b, 0xf0, 0xf0) {
			if x < 0xf0 {
				chunk += string([]byte{x})
				continue
			}
			calls = append(calls, call{kind: pushes, chunk: chunk})
			chunk = ""
			switch x {
			case 0xf1:
				calls = append(calls, call{kind: sets, most: 16384})
			case 0xf2:
				calls = append(calls, call{kind: sets, most: 65536})
			default:
				calls = append(calls, call{kind: asks})
			}
		}
		wantCalls(t, server, 16384, calls)
	})
}
