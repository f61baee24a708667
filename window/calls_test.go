package window_test

import (
	"encoding/binary"
	"math/rand"
	"testing"

	"herald/window"
)

// both are a window and the model of it, under the same calls.
type both struct {
	w    *window.Window
	m    *model
	done []call
}

func newBoth(n int64) *both { return &both{w: window.New(n), m: newModel(n)} }

// do makes one call on both, and holds the answers and what is left against one another.
func (b *both) do(t *testing.T, c call) {
	t.Helper()
	b.done = append(b.done, c)
	switch c.kind {
	case 0:
		if got, want := b.w.Take(c.n), b.m.take(c.n); got != want {
			t.Fatalf("P9.3: New(%d), %v: %v, want %v", b.m.first, b.done, got, want)
		}
	case 1:
		if got, want := b.w.Give(c.n), b.m.give(c.n); got != want {
			t.Fatalf("P9.4: New(%d), %v: %d, want %d", b.m.first, b.done, got, want)
		}
	default:
		if got, want := b.w.Shift(c.n), b.m.shift(c.n); got != want {
			t.Fatalf("P9.5: New(%d), %v: %d, want %d", b.m.first, b.done, got, want)
		}
	}
	b.look(t)
}

func (b *both) look(t *testing.T) {
	t.Helper()
	got, want := b.w.Left(), b.m.sum()
	if !want.IsInt64() || got != want.Int64() || got < -top || got > top {
		t.Fatalf("P9.2, P9.7: New(%d), %v: Left() = %d, want %d", b.m.first, b.done, got, want)
	}
}

// TestOneCall: each edge as the argument of each call, at each edge of what is left.
func TestOneCall(t *testing.T) {
	for _, left := range edges() {
		if left < -top || left > top {
			continue
		}
		for _, n := range edges() {
			for kind := range kinds {
				b := newBoth(0)
				b.do(t, call{2, left})
				b.do(t, call{kind, n})
			}
		}
	}
}

// TestShortOrders: every order of four calls out of some that meet at both ends.
func TestShortOrders(t *testing.T) {
	some := []call{{0, 0}, {0, 1}, {0, top}, {0, -1}, {1, 1}, {1, top}, {1, 0}, {1, greatest}, {2, -1}, {2, top}, {2, -top}, {2, least}}
	for _, first := range []int64{0, 1, top} {
		for _, c := range some {
			for _, d := range some {
				for _, e := range some {
					for _, f := range some {
						b := newBoth(first)
						b.do(t, c)
						b.do(t, d)
						b.do(t, e)
						b.do(t, f)
					}
				}
			}
		}
	}
}

// TestManyCalls: long lives of windows that begin anywhere.
func TestManyCalls(t *testing.T) {
	r := rand.New(rand.NewSource(9))
	all := edges()
	for range 400 {
		b := newBoth(all[r.Intn(len(all))])
		b.look(t)
		for range 60 {
			b.do(t, randomCall(r, b.w.Left(), all))
		}
	}
}

// TestSums: what is left is told by what was taken, call by call, and not by how often.
func TestSums(t *testing.T) {
	w := window.New(1000)
	for range 1000 {
		wantTake(t, w, 1, true)
	}
	wantTake(t, w, 1, false)
	for range 700 {
		wantGive(t, w, 3, 0)
	}
	wantLeft(t, "P9.7", w, 2100)
	for range 500 {
		wantShift(t, w, -7, 0)
	}
	wantLeft(t, "P9.7", w, -1400)
	wantGive(t, w, 1400, 0)
	wantLeft(t, "P9.7", w, 0)
}

// TestThereAndBack: a shift that is taken can be taken back, from wherever it was.
func TestThereAndBack(t *testing.T) {
	for _, left := range edges() {
		if left < -top || left > top {
			continue
		}
		for _, by := range edges() {
			w := withLeft(t, left)
			if by == least || w.Shift(by) != 0 {
				wantLeft(t, "P9.5", w, left)
				continue
			}
			wantLeft(t, "P9.7", w, left+by)
			wantShift(t, w, -by, 0)
			wantLeft(t, "P9.7", w, left)
		}
	}
}

// TestSideBySide: windows made alike go their own ways, in any order of use.
func TestSideBySide(t *testing.T) {
	used, untouched := window.New(100), window.New(100)
	wantTake(t, used, 100, true)
	wantShift(t, used, -50, 0)
	wantLeft(t, "P9.7", untouched, 100)
	wantTake(t, untouched, 100, true)
	wantLeft(t, "P9.7", used, -50)

	r := rand.New(rand.NewSource(99))
	all := edges()
	for range 50 {
		n := all[r.Intn(len(all))]
		still, first := window.New(n), newModel(n).first
		list := []*both{newBoth(n), newBoth(n), newBoth(all[r.Intn(len(all))])}
		for range 60 {
			b := list[r.Intn(len(list))]
			b.do(t, randomCall(r, b.w.Left(), all))
			for _, x := range list {
				x.look(t)
			}
			wantLeft(t, "P9.7", still, first)
		}
	}
}

// TestRoomKeepsNothing: asking for room takes nothing and is the same each time.
func TestRoomKeepsNothing(t *testing.T) {
	conn, stream := window.New(100), window.New(50)
	for range 3 {
		wantRoom(t, conn.Left(), stream.Left(), 70, 16384, 50)
	}
	wantLeft(t, "P9.6", conn, 100)
	wantLeft(t, "P9.6", stream, 50)
	wantTake(t, conn, 50, true)
	wantTake(t, stream, 50, true)
	wantRoom(t, conn.Left(), stream.Left(), 20, 16384, 0)
}

// FuzzCalls: nine bytes a call, its kind and its number.
func FuzzCalls(f *testing.F) {
	f.Add(int64(65535), "\x00\x00\x00\x00\x00\x00\x00\x00\x01")
	f.Add(int64(-5), "\x02\xff\xff\xff\xff\x80\x00\x00\x01\x02\x7f\xff\xff\xff\xff\xff\xff\xff")
	f.Add(int64(1<<40), "\x01\x7f\xff\xff\xff\xff\xff\xff\xff\x02\x80\x00\x00\x00\x00\x00\x00\x00")
	f.Fuzz(func(t *testing.T, first int64, bytes string) {
		b := newBoth(first)
		b.look(t)
		for ; len(bytes) >= 9; bytes = bytes[9:] {
			n := int64(binary.BigEndian.Uint64([]byte(bytes[1:9])))
			b.do(t, call{int(bytes[0]) % kinds, n})
			wantRoom(t, first, b.w.Left(), int(n), len(bytes), modelRoom(first, b.w.Left(), int(n), len(bytes)))
		}
	})
}
