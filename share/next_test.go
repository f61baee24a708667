package share_test

import (
	"math"
	"strings"
	"testing"

	"herald/api"
)

func frames() []int {
	return []int{math.MinInt, -1 << 32, -2, -1, 0, 1, 2, 3, 4, 5, 16384, 1 << 32, math.MaxInt}
}

// TestNextWindows: each window and each frame at each edge, with five, one and no
// bytes, with and without an end.
func TestNextWindows(t *testing.T) {
	for _, text := range []string{"abcde", "a", ""} {
		for _, end := range []bool{false, true} {
			for _, conn := range windows() {
				for _, stream := range windows() {
					for _, frame := range frames() {
						b := newBoth(t)
						b.wantPut(t, 1, text, end, api.OK)
						b.holdNext(t, 1, conn, stream, frame)
						b.holdReady(t, 1, left(1, 1))
						b.holdNext(t, 1, conn, stream, frame)
						b.holdNext(t, 1, 9, 9, 9)
						b.holdNext(t, 1, 9, 9, 9)
					}
				}
			}
		}
	}
}

// TestJustEnough: the least of what waits, the windows and the frame goes.
func TestJustEnough(t *testing.T) {
	for _, c := range []struct {
		conn, stream int64
		frame        int
		want         string
		last         bool
	}{
		{5, 5, 5, "abcde", true}, {4, 5, 5, "abcd", false}, {5, 4, 5, "abcd", false}, {5, 5, 4, "abcd", false},
		{1, 9, 9, "a", false}, {9, 1, 9, "a", false}, {9, 9, 1, "a", false}, {2, 3, 4, "ab", false}, {4, 2, 3, "ab", false}, {3, 4, 2, "ab", false},
		{6, 5, 5, "abcde", true}, {5, 6, 5, "abcde", true}, {5, 5, 6, "abcde", true},
		{greatest, greatest, math.MaxInt, "abcde", true}, {1 << 32, greatest, math.MaxInt, "abcde", true}, {1<<32 + 1, greatest, math.MaxInt, "abcde", true}, {9, 1<<32 + 1, math.MaxInt, "abcde", true},
	} {
		b := newBoth(t)
		b.wantPut(t, 1, "abcde", true, api.OK)
		b.wantNext(t, 1, c.conn, c.stream, c.frame, c.want, c.last)
		b.wantWaits(t, 1, 5-len(c.want), !c.last)
		b.empty(t)
		b = newBoth(t)
		b.wantPut(t, 1, "abcde", false, api.OK)
		b.wantNext(t, 1, c.conn, c.stream, c.frame, c.want, false)
		b.wantWaits(t, 1, 5-len(c.want), false)
		b.empty(t)
	}
}

// TestErrorsInOrder: ErrArg ahead of ErrNone ahead of ErrFull, and none changes
// anything.
func TestErrorsInOrder(t *testing.T) {
	for _, bad := range []int{math.MinInt, -1 << 32, -1, 0} {
		for _, window := range []int64{least, -1, 0, 1, greatest} {
			b := newBoth(t)
			b.wantPut(t, 1, "abc", true, api.OK)
			b.wantPut(t, 5, "", true, api.OK)
			b.wantPut(t, 7, "x", true, api.OK)
			b.wantNext(t, 7, 1, 1, 1, "x", true)
			for _, id := range append(edgeIDs(), 3, 5, 7) {
				b.wantNo(t, id, window, window, bad, api.ErrArg)
				b.wantNo(t, id, window, 1, bad, api.ErrArg)
			}
			for _, id := range append(edgeIDs(), 3, 7) {
				if id != 1 {
					b.wantNo(t, id, window, window, 1, api.ErrNone)
				}
			}
			if window <= 0 {
				b.wantNo(t, 1, window, 9, 9, api.ErrFull)
				b.wantNo(t, 1, 9, window, 9, api.ErrFull)
				b.wantNo(t, 1, window, window, 9, api.ErrFull)
			}
			b.look(t)
			b.wantWaits(t, 1, 3, true)
			b.wantWaits(t, 5, 0, true)
			b.wantReady(t, 1, left(1, 1), 1, 5)
			b.wantNext(t, 1, 9, 9, 9, "abc", true)
			b.wantNext(t, 5, window, window, 1, "", true)
			b.empty(t)
		}
	}
}

// TestEndAlone: it goes whatever is left, once.
func TestEndAlone(t *testing.T) {
	for _, conn := range windows() {
		for _, stream := range windows() {
			for _, frame := range []int{1, 2, math.MaxInt} {
				b := newBoth(t)
				b.wantPut(t, 1, "a", false, api.OK)
				b.wantNext(t, 1, 9, 9, 9, "a", false)
				b.wantPut(t, 1, "", true, api.OK)
				b.wantReady(t, conn, left(1, stream), 1)
				b.wantNext(t, 1, conn, stream, frame, "", true)
				b.wantReady(t, conn, left(1, stream))
				b.wantNo(t, 1, conn, stream, frame, api.ErrNone)
				b.wantNo(t, 1, 9, 9, 9, api.ErrNone)
				b.wantPut(t, 1, "", true, api.ErrState)
			}
		}
	}
}

// TestEndBehindBytes: put with them or behind them, it goes with the last, and not
// ahead.
func TestEndBehindBytes(t *testing.T) {
	for _, apart := range []bool{false, true} {
		for frame := 1; frame <= 7; frame++ {
			b := newBoth(t)
			b.wantPut(t, 1, "abcdef", !apart, api.OK)
			if apart {
				b.wantPut(t, 1, "", true, api.OK)
			}
			for at := 0; at < 6; at += frame {
				to := min(6, at+frame)
				b.wantWaits(t, 1, 6-at, true)
				b.wantReady(t, 0, left(1, 9))
				b.wantNext(t, 1, 9, 9, frame, "abcdef"[at:to], to == 6)
			}
			b.wantNo(t, 1, 9, 9, frame, api.ErrNone)
			b.empty(t)
		}
	}
}

// TestPiecesOverTexts: where texts begin and end can't be told by the pieces.
func TestPiecesOverTexts(t *testing.T) {
	for _, texts := range all(3, "", "a", "bcd", "ef") {
		for _, frames := range all(3, 1, 2, 3) {
			b := newBoth(t)
			for i, text := range texts {
				b.wantPut(t, 1, text, i == 2, api.OK)
				if i < len(frames) {
					b.holdNext(t, 1, 9, 9, frames[i])
				}
			}
			for _, frame := range frames {
				b.holdNext(t, 1, 9, 9, frame)
			}
			b.empty(t)
		}
	}
}

// TestBytesAsTheyAre: every byte, and texts longer than a frame or a body may be.
func TestBytesAsTheyAre(t *testing.T) {
	var every strings.Builder
	for i := range 256 {
		every.WriteByte(byte(i))
	}
	for _, text := range []string{every.String(), "\x00", "\xff\xfe", "é€", strings.Repeat(every.String(), 1024)} {
		for _, frame := range []int{7, 255, 256, 257, 16384, 65536, 1 << 20} {
			b := newBoth(t)
			b.s.Put(9, text, false)
			b.s.Put(9, text, true)
			var told strings.Builder
			for {
				piece, last, e := b.s.Next(9, greatest, greatest, frame)
				if e != api.OK {
					t.Fatalf("P20.5: Next answers %d", e)
				}
				told.WriteString(piece)
				if n, end := b.s.Waits(9); n != 2*len(text)-told.Len() || end == last || len(piece) != frame && !last {
					t.Fatalf("P20.5: of %d bytes %d wait behind a piece of %d, %v, %v", 2*len(text), n, len(piece), last, end)
				}
				if last {
					break
				}
			}
			if told.String() != text+text {
				t.Errorf("P20.7: of %d bytes in frames of %d others were told", len(text), frame)
			}
		}
	}
}

// TestManyPieces: many small texts, and many small pieces, are gone through to the
// end.
func TestManyPieces(t *testing.T) {
	const many = 200000
	b := newBoth(t)
	for i := range many {
		if e := b.s.Put(1, string([]byte{'a' + byte(i%26)}), i == many-1); e != api.OK {
			t.Fatalf("P20.1: the Put number %d: %d", i, e)
		}
	}
	for i := range many {
		if piece, last, e := b.s.Next(1, 5, 4, 1); piece != string([]byte{'a' + byte(i%26)}) || last != (i == many-1) || e != api.OK {
			t.Fatalf("P20.5: the Next number %d: %q, %v, %d", i, piece, last, e)
		}
	}
	b.wantNo(t, 1, 9, 9, 9, api.ErrNone)
}

// TestManyStreams: many streams wait, and many are over, each with its own text.
func TestManyStreams(t *testing.T) {
	const many = 20000
	b := newBoth(t)
	text := func(id int64) string { return strings.Repeat(string([]byte{'a' + byte(id%26)}), int(id%4)) }
	for id := int64(1); id <= many; id++ {
		if e := b.s.Put(id, text(id), true); e != api.OK {
			t.Fatalf("P20.1: Put(%d): %d", id, e)
		}
	}
	ends := 0
	for id := int64(many); id >= 1; id-- {
		if n, end := b.s.Waits(id); n != int(id%4) || !end {
			t.Fatalf("P20.3: Waits(%d) = %d, %v", id, n, end)
		}
		if piece, last, e := b.s.Next(id, 9, 9, 9); piece != text(id) || !last || e != api.OK {
			t.Fatalf("P20.5: Next(%d): %q, %v, %d", id, piece, last, e)
		}
		if id%1000 == 0 {
			ends = len(b.s.Ready(0, nil))
			if want := int(id)/4 - 1; ends != want {
				t.Fatalf("P20.4: %d ends wait, want %d", ends, want)
			}
		}
	}
	for id := int64(1); id <= many; id += 999 {
		if e := b.s.Put(id, "", false); e != api.ErrState {
			t.Fatalf("P20.1: Put(%d) behind its end: %d", id, e)
		}
	}
}
