package feed_test

import (
	"math/rand"
	"strings"
	"testing"

	"herald/api"
	"herald/feed"
)

// rightFrames are some of every type, with payloads of at most 16384 bytes.
func rightFrames() []api.Frame {
	return []api.Frame{
		{Stream: 1},
		{Flags: 1, Stream: 2147483647, Data: "hi"},
		{Flags: 9, Stream: 3, Data: "padded", Pad: 255},
		{Stream: 3, Data: strings.Repeat("l", 16384)},
		{Type: 1, Stream: 1},
		{Type: 1, Flags: 45, Stream: 3, Dep: 1, Excl: true, Weight: 256, Data: "x", Pad: 2},
		{Type: 2, Stream: 5, Dep: 2147483647, Weight: 1},
		{Type: 3, Stream: 7, Code: 4294967295},
		{Type: 4},
		{Type: 4, Flags: 1},
		{Type: 4, Params: []api.Param{{ID: 4, Value: 100}, {ID: 65535, Value: 4294967295}, {}}},
		{Type: 5, Flags: 12, Stream: 1, Last: 2, Data: "block", Pad: 1},
		{Type: 5, Stream: 1},
		{Type: 6, Data: "12345678"},
		{Type: 6, Flags: 1, Data: "\x00\x00\x00\x00\xff\xff\xff\xff"},
		{Type: 7, Last: 9, Code: 11, Data: "why"},
		{Type: 7},
		{Type: 8, Last: 2147483647},
		{Type: 8, Stream: 1},
		{Type: 9, Flags: 4, Stream: 1, Data: "rest"},
		{Type: 9, Stream: 1},
		{Type: 10, Flags: 255, Stream: 7, Data: "abc"},
		{Type: 255},
	}
}

// tells asks till no frame and no fault of a stream is told.
func tells(f *feed.Feed) []told {
	var list []told
	for {
		x := next(f)
		if !x.ok && x.fault.Stream == 0 {
			return list
		}
		list = append(list, x)
	}
}

// fed pushes bytes cut as cuts says, which is asked at each byte, and tells all,
// what the feed breaks by (or nothing) last.
func fed(server bool, most int64, b string, cuts func(at int) bool, often bool) []told {
	f := feed.New(server, most)
	var list []told
	from := 0
	for at := 1; at <= len(b); at++ {
		if at < len(b) && !cuts(at) {
			continue
		}
		f.Push(b[from:at])
		from = at
		if often {
			list = append(list, tells(f)...)
		}
	}
	list = append(list, tells(f)...)
	return append(list, next(f))
}

// wantAlike: cut in many ways the bytes tell what they tell in one chunk, and
// that is what the model tells.
func wantAlike(t *testing.T, server bool, most int64, b string, r *rand.Rand) {
	t.Helper()
	m := newModel(server, most)
	m.push(b)
	var want []told
	for x := m.next(); x.ok || x.fault.Stream != 0; x = m.next() {
		want = append(want, x)
	}
	want = append(want, m.next())
	ways := []func(int) bool{
		func(int) bool { return false },
		func(int) bool { return true },
		func(at int) bool { return at%2 == 0 },
		func(at int) bool { return at%9 == 0 },
		func(at int) bool { return at == len(b)/2 },
		func(at int) bool { return at == len(b)-1 },
		func(at int) bool { return at == 24 },
		func(int) bool { return r.Intn(5) == 0 },
		func(int) bool { return r.Intn(50) == 0 },
	}
	for i, cuts := range ways {
		for _, often := range []bool{false, true} {
			if err := sameList(fed(server, most, b, cuts, often), want); err != nil {
				t.Errorf("P7.2: server %v, most %d, %d bytes that begin %.40q, cut in way %d, asked often %v: %v", server, most, len(b), b, i, often, err)
			}
		}
	}
}

func TestChunksDoNotMatter(t *testing.T) {
	r := rand.New(rand.NewSource(1))
	all := ""
	for _, f := range rightFrames() {
		all += write(f) + badFrame
	}
	tooMuch := bytesOf("00 40 01 00 00 00 00 00 01") + strings.Repeat("x", 16385)
	for _, b := range []string{
		"", "x", bytesA, badFrame, bytesA + badFrame + bytesB, all, all + bytesA[:10],
		bytesA + tooMuch + bytesB, tooMuch, bytesA + bytesOf("00 00 00 00 00 00 00 00 00") + bytesB,
		badFrame + strings.Repeat("\xff", 30), badFrame[:8] + "\x00abcd" + bytesA,
	} {
		for _, most := range []int64{0, 16384, 65536} {
			wantAlike(t, false, most, b, r)
			wantAlike(t, true, most, preface+b, r)
			wantAlike(t, true, most, b, r)
		}
	}
	for n := range preface {
		wantAlike(t, true, 16384, preface[:n], r)
		wantAlike(t, true, 16384, preface[:n]+"\x00"+preface[n+1:]+bytesA, r)
	}
}

func TestRandomChunks(t *testing.T) {
	r := rand.New(rand.NewSource(2))
	for range 100 {
		b := randomBytes(r)
		wantAlike(t, false, 16384, b, r)
		wantAlike(t, true, 65536, preface+b, r)
	}
}

// TestEveryCut: two chunks, cut at each byte, asked between them or not.
func TestEveryCut(t *testing.T) {
	b := bytesA + badFrame + bytesB + write(api.Frame{Type: 7}) + bytesA[:9]
	for _, server := range []bool{false, true} {
		whole := b
		if server {
			whole = preface + b
		}
		want := []told{frameA(), badTold, frameB(), {f: api.Frame{Type: 7}, ok: true}, none}
		for n := range len(whole) + 1 {
			for _, often := range []bool{false, true} {
				got := fed(server, 16384, whole, func(at int) bool { return at == n }, often)
				if err := sameList(got, want); err != nil {
					t.Errorf("P7.2: server %v, cut at %d, asked often %v: %v", server, n, often, err)
				}
			}
		}
	}
}

// wantBack pushes the frames and a part of one, and asks for them.
func wantBack(t *testing.T, server bool, most int64, frames []api.Frame, part string) {
	t.Helper()
	f := feed.New(server, most)
	b := ""
	for _, x := range frames {
		b += write(x)
	}
	left := len(b) + len(part)
	if server {
		b = preface + b
	}
	f.Push(b + part)
	for _, x := range frames {
		left -= len(write(x))
		wantNext(t, "P7.3", f, told{f: x, ok: true}, left)
	}
	wantNext(t, "P7.3", f, none, len(part))
	wantNext(t, "P7.3", f, none, len(part))
}

func TestThereAndBack(t *testing.T) {
	for _, server := range []bool{false, true} {
		wantBack(t, server, 16384, nil, "")
		for _, x := range rightFrames() {
			b := write(x)
			for _, n := range []int{0, 1, 2, 3, 8, 9, len(b) / 2, len(b) - 1} {
				wantBack(t, server, 16384, []api.Frame{x}, b[:min(n, len(b)-1)])
				wantBack(t, server, 0, []api.Frame{x, x}, b[:min(n, len(b)-1)])
			}
		}
		for n := range len(bytesB) {
			wantBack(t, server, 65536, rightFrames(), bytesB[:n])
		}
	}
}

// TestLongThereAndBack: payloads of just most bytes.
func TestLongThereAndBack(t *testing.T) {
	for _, n := range []int64{16384, 16385, 40000, 65535, 65536} {
		x := api.Frame{Type: 9, Stream: 1, Data: strings.Repeat("x", int(n))}
		for _, server := range []bool{false, true} {
			wantBack(t, server, n, []api.Frame{x, x}, write(x)[:n+8])
			wantBack(t, server, 1<<40, []api.Frame{x}, write(x)[:9])
		}
	}
}

// TestByteByByte: each frame is there with its last byte, and not sooner.
func TestByteByByte(t *testing.T) {
	f := feed.New(false, 16384)
	for _, x := range rightFrames() {
		b := write(x)
		for i := range len(b) {
			wantNext(t, "P7.2", f, none, i)
			f.Push(b[i : i+1])
			wantWaiting(t, "P7.2", f, i+1)
		}
		wantNext(t, "P7.2", f, told{f: x, ok: true}, 0)
	}
}

// TestLongStreams: the work for a byte that comes doesn't grow with those that
// are waiting; else this test would run a hundred times as long.
func TestLongStreams(t *testing.T) {
	f := feed.New(false, 65536)
	x := api.Frame{Type: 9, Stream: 1, Data: strings.Repeat("x", 65536)}
	b := strings.Repeat(write(x), 40)
	n := 0
	for i := range len(b) {
		f.Push(b[i : i+1])
		if _, ok, _ := f.Next(); ok {
			n++
		}
	}
	if n != 40 {
		t.Errorf("P7.3: %d of 40 long frames come back byte by byte", n)
	}
	f.Push(strings.Repeat(bytesA, 300000))
	for range 300000 {
		if _, ok, _ := f.Next(); !ok {
			t.Fatalf("P7.3: a frame is missing, with %d bytes waiting", f.Waiting())
		}
	}
	wantNext(t, "P7.3", f, none, 0)
}
