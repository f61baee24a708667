package window_test

import (
	"testing"

	"herald/window"
)

func wantLeft(t *testing.T, promise string, w *window.Window, want int64) {
	t.Helper()
	if got := w.Left(); got != want {
		t.Errorf("%s: Left() = %d, want %d", promise, got, want)
	}
}

func wantTake(t *testing.T, w *window.Window, n int64, want bool) {
	t.Helper()
	left := w.Left()
	if got := w.Take(n); got != want {
		t.Errorf("P9.3: with %d left Take(%d) = %v, want %v", left, n, got, want)
	}
	if want {
		left -= n
	}
	wantLeft(t, "P9.3", w, left)
}

func wantGive(t *testing.T, w *window.Window, n, want int64) {
	t.Helper()
	left := w.Left()
	if got := w.Give(n); got != want {
		t.Errorf("P9.4: with %d left Give(%d) = %d, want %d", left, n, got, want)
	}
	if want == 0 {
		left += n
	}
	wantLeft(t, "P9.4", w, left)
}

func wantShift(t *testing.T, w *window.Window, by, want int64) {
	t.Helper()
	left := w.Left()
	if got := w.Shift(by); got != want {
		t.Errorf("P9.5: with %d left Shift(%d) = %d, want %d", left, by, got, want)
	}
	if want == 0 {
		left += by
	}
	wantLeft(t, "P9.5", w, left)
}

func wantRoom(t *testing.T, conn, stream int64, room, frame, want int) {
	t.Helper()
	if got := window.Room(conn, stream, room, frame); got != want {
		t.Errorf("P9.6: Room(%d, %d, %d, %d) = %d, want %d", conn, stream, room, frame, got, want)
	}
}

// withLeft is a window with so many left, from -top to top.
func withLeft(t *testing.T, left int64) *window.Window {
	t.Helper()
	w := window.New(0)
	wantShift(t, w, left, 0)
	wantLeft(t, "P9.2", w, left)
	return w
}

func TestExamplesOneAndTwo(t *testing.T) {
	w := window.New(65535)
	wantTake(t, w, 65536, false)
	wantTake(t, w, 65535, true)
	wantLeft(t, "P9.2", w, 0)
	wantTake(t, w, 0, true)
	wantTake(t, w, 1, false)

	wantShift(t, w, -65435, 0)
	wantLeft(t, "P9.2", w, -65435)
	wantTake(t, w, 0, true)
	wantTake(t, w, 1, false)
	wantGive(t, w, 65435, 0)
	wantLeft(t, "P9.2", w, 0)
	wantGive(t, w, 0, 1)
	wantGive(t, w, -1, 1)
	wantGive(t, w, 2147483647, 0)
	wantGive(t, w, 1, 3)
	wantLeft(t, "P9.2", w, 2147483647)
}

func TestExampleThree(t *testing.T) {
	wantLeft(t, "P9.1", window.New(-5), 0)
	w := window.New(1 << 40)
	wantLeft(t, "P9.1", w, 2147483647)
	wantShift(t, w, 1, 3)
}

func TestExampleFour(t *testing.T) {
	w := window.New(0)
	wantShift(t, w, -2147483647, 0)
	wantShift(t, w, -1, 3)
	wantGive(t, w, 9223372036854775807, 3)
}

func TestExampleFive(t *testing.T) {
	wantRoom(t, 100, 50, 70, 16384, 50)
	wantRoom(t, 100, -3, 70, 16384, 0)
	wantRoom(t, 5, 5, -1, 9, 0)
}

// TestNewBounds: what is below 0 and what is above the greatest window is brought to these.
func TestNewBounds(t *testing.T) {
	for _, x := range [][2]int64{
		{least, 0}, {least + 1, 0}, {-1 << 32, 0}, {-top - 2, 0}, {-top - 1, 0}, {-top, 0}, {-2, 0}, {-1, 0},
		{0, 0}, {1, 1}, {2, 2}, {65535, 65535}, {1 << 30, 1 << 30}, {top - 1, top - 1},
		{top, top}, {top + 1, top}, {1<<32 - 1, top}, {1 << 32, top}, {1<<32 + 5, top}, {greatest - 1, top}, {greatest, top},
	} {
		wantLeft(t, "P9.1", window.New(x[0]), x[1])
	}
}

// TestTakeBounds: what is below 0 is never taken, 0 always, the rest up to what is left.
func TestTakeBounds(t *testing.T) {
	for _, left := range []int64{-top, -top + 1, -65435, -2, -1, 0, 1, 2, 65535, top - 1, top} {
		for _, n := range []int64{least, least + 1, -1 << 32, -top - 1, -top, -top + 1, -65435, -2, -1} {
			wantTake(t, withLeft(t, left), n, false)
		}
		wantTake(t, withLeft(t, left), 0, true)
		for _, n := range []int64{1, 2, 3, 65535, 65536, top - 1, top, top + 1, 1 << 32, 1<<32 + 1, greatest - 1, greatest} {
			wantTake(t, withLeft(t, left), n, n <= left)
		}
		if left >= 0 {
			wantTake(t, withLeft(t, left), left, true)
		}
		if left > 0 {
			wantTake(t, withLeft(t, left), left-1, true)
		}
		if left > -1 {
			wantTake(t, withLeft(t, left), left+1, false)
		}
	}
}

// TestGiveBounds: nothing below 1 is given, the rest up to the greatest window.
func TestGiveBounds(t *testing.T) {
	for _, left := range []int64{-top, -top + 1, -65435, -2, -1, 0, 1, 2, 65535, top - 1, top} {
		for _, n := range []int64{least, least + 1, -1 << 32, -top - 1, -top, -top + 1, -65435, -2, -1, 0} {
			wantGive(t, withLeft(t, left), n, 1)
		}
		for _, n := range []int64{greatest, greatest - 1, greatest - top, greatest - top + 1, 1 << 40, 2*top + 1} {
			wantGive(t, withLeft(t, left), n, 3)
		}
		if left < top {
			wantGive(t, withLeft(t, left), 1, 0)
			wantGive(t, withLeft(t, left), top-left, 0)
		}
		wantGive(t, withLeft(t, left), top-left+1, 3)
	}
	wantGive(t, withLeft(t, -top), 2*top, 0)
	wantGive(t, withLeft(t, -top), top+1, 0)
}

// TestShiftBounds: what is left stays from -top to top, whatever it is moved by.
func TestShiftBounds(t *testing.T) {
	for _, left := range []int64{-top, -top + 1, -65435, -2, -1, 0, 1, 2, 65535, top - 1, top} {
		wantShift(t, withLeft(t, left), 0, 0)
		wantShift(t, withLeft(t, left), top-left, 0)
		wantShift(t, withLeft(t, left), top-left+1, 3)
		wantShift(t, withLeft(t, left), -top-left, 0)
		wantShift(t, withLeft(t, left), -top-left-1, 3)
		for _, by := range []int64{least, least + 1, least + top, least + 2*top, -1 << 40, -2*top - 1, 2*top + 1, 1 << 40, greatest - 2*top, greatest - top, greatest - 1, greatest} {
			wantShift(t, withLeft(t, left), by, 3)
		}
	}
	wantShift(t, withLeft(t, top), -2*top, 0)
	wantShift(t, withLeft(t, -top), 2*top, 0)
	wantShift(t, withLeft(t, 5), -5, 0)
	wantShift(t, withLeft(t, 5), -6, 0)
}

// TestEitherEnd: a window at an end is still of use, and goes back from there.
func TestEitherEnd(t *testing.T) {
	w := withLeft(t, -top)
	wantTake(t, w, 0, true)
	wantTake(t, w, 1, false)
	wantShift(t, w, -1, 3)
	wantShift(t, w, least, 3)
	wantGive(t, w, 1, 0)
	wantShift(t, w, -1, 0)
	wantGive(t, w, 2*top, 0)
	wantGive(t, w, 1, 3)
	wantShift(t, w, 1, 3)
	wantShift(t, w, greatest, 3)
	wantTake(t, w, top+1, false)
	wantTake(t, w, top, true)
	wantTake(t, w, 1, false)
	wantLeft(t, "P9.2", w, 0)
}

// TestRoomLeast: each of the four is once the least, once below 0, once alike with others.
func TestRoomLeast(t *testing.T) {
	wantRoom(t, 1, 2, 3, 4, 1)
	wantRoom(t, 2, 1, 3, 4, 1)
	wantRoom(t, 3, 2, 1, 4, 1)
	wantRoom(t, 4, 2, 3, 1, 1)
	for _, below := range []int64{-1, -2, -top, -top - 1, -1 << 32, least, least + 1} {
		wantRoom(t, below, 2, 3, 4, 0)
		wantRoom(t, 2, below, 3, 4, 0)
		wantRoom(t, 2, 3, int(below), 4, 0)
		wantRoom(t, 2, 3, 4, int(below), 0)
		wantRoom(t, below, below, int(below), int(below), 0)
		wantRoom(t, below, 0, 1, 2, 0)
	}
	wantRoom(t, 0, 2, 3, 4, 0)
	wantRoom(t, 2, 0, 3, 4, 0)
	wantRoom(t, 2, 3, 0, 4, 0)
	wantRoom(t, 2, 3, 4, 0, 0)
	wantRoom(t, 0, 0, 0, 0, 0)
	wantRoom(t, 7, 7, 7, 7, 7)
	wantRoom(t, 7, 7, 8, 9, 7)
	wantRoom(t, 8, 9, 7, 7, 7)
	wantRoom(t, 8, 7, 7, 9, 7)
	wantRoom(t, 9, 9, 9, 3, 3)
	wantRoom(t, 1<<32, 1<<32, 5, 6, 5)
	wantRoom(t, 1<<32+1, 1<<32+2, 1<<32+3, 1<<32+4, 1<<32+1)
	wantRoom(t, greatest, greatest, greatest, greatest, greatest)
	wantRoom(t, greatest, greatest, 65536, 16384, 16384)
}

// TestRoomModel: all numbers at which something changes, in all four places.
func TestRoomModel(t *testing.T) {
	few := []int64{least, -top, -1, 0, 1, 3, 16384, 65535, 65536, top, 1<<32 - 1, 1 << 32, 1<<32 + 2, greatest}
	for _, conn := range few {
		for _, stream := range few {
			for _, want := range few {
				for _, frame := range few {
					wantRoom(t, conn, stream, int(want), int(frame), modelRoom(conn, stream, int(want), int(frame)))
				}
			}
		}
	}
}
