package share_test

import (
	"slices"
	"testing"

	"herald/api"
	"herald/share"
)

// windows are what a window may have left, at its edges.
func windows() []int64 {
	return []int64{least, -lastID, -2, -1, 0, 1, 2, 3, 4, 5, 16384, lastID, 1 << 32, greatest}
}

// TestReadyWindows: bytes need both windows, an end alone needs none, nothing never
// goes.
func TestReadyWindows(t *testing.T) {
	b := newBoth(t)
	b.wantPut(t, 1, "abc", false, api.OK)
	b.wantPut(t, 3, "", true, api.OK)
	b.wantPut(t, 5, "de", true, api.OK)
	b.wantPut(t, 7, "", false, api.OK)
	b.wantPut(t, 9, "gone", true, api.OK)
	b.wantNext(t, 9, 9, 9, 9, "gone", true)
	for _, conn := range windows() {
		for _, one := range windows() {
			for _, five := range windows() {
				want := []int64{3}
				if conn > 0 && one > 0 {
					want = append(want, 1)
				}
				if conn > 0 && five > 0 {
					want = append(want, 5)
				}
				slices.Sort(want)
				for _, other := range []int64{least, 0, greatest} {
					b.wantReady(t, conn, left(7, other, 1, one, 9, other, 5, five, 3, other), want...)
				}
			}
		}
	}
	b.empty(t)
}

// TestFirstLeft: of several with one ID the first counts, wherever it stands.
func TestFirstLeft(t *testing.T) {
	b := newBoth(t)
	b.wantPut(t, 1, "a", false, api.OK)
	b.wantPut(t, 2, "b", true, api.OK)
	b.wantReady(t, 1, left(1, 1, 1, 0), 1)
	b.wantReady(t, 1, left(1, 0, 1, 1))
	b.wantReady(t, 1, left(1, -1, 1, 1, 2, 1), 2)
	b.wantReady(t, 1, left(2, 5, 1, 5, 2, 0, 1, 0), 1, 2)
	some := []share.Left{{ID: 1, Left: 1}, {ID: 1, Left: 0}, {ID: 1, Left: -1}, {ID: 2, Left: 9}, {ID: 2, Left: 0}, {ID: 3, Left: 1}}
	for _, l := range all(4, some...) {
		b.holdReady(t, 1, l)
		b.wantReady(t, 0, l)
	}
	b.empty(t)
}

// TestNoLeft: a stream that no one tells of has nothing left.
func TestNoLeft(t *testing.T) {
	b := newBoth(t)
	b.wantPut(t, 1, "a", false, api.OK)
	b.wantPut(t, 2, "b", true, api.OK)
	b.wantPut(t, 3, "", true, api.OK)
	b.wantReady(t, 9, nil, 3)
	b.wantReady(t, 9, []share.Left{}, 3)
	b.wantReady(t, 9, left(2, 9), 2, 3)
	b.wantReady(t, 9, left(0, 9, -1, 9, 4, 9, lastID, 9, lastID+1, 9, 1+1<<32, 9, least, 9, greatest, 9), 3)
	b.empty(t)
}

// TestNothingWaits: no window makes a stream ready of which nothing waits.
func TestNothingWaits(t *testing.T) {
	b := newBoth(t)
	var l []share.Left
	for _, id := range edgeIDs() {
		l = append(l, share.Left{ID: id, Left: 9})
	}
	b.wantReady(t, 9, l)
	b.wantPut(t, 1, "a", true, api.OK)
	b.wantReady(t, 9, l, 1)
	b.wantNext(t, 1, 9, 9, 9, "a", true)
	b.wantReady(t, 9, l)
	b.wantPut(t, lastID, "a", false, api.OK)
	b.wantReady(t, 9, l, lastID)
	b.wantDrop(t, lastID, true)
	b.wantReady(t, 9, l)
}

// TestRising: in whatever order streams are put and told, they come rising.
func TestRising(t *testing.T) {
	const many = 500
	for _, by := range []int64{1, 37, 499, 251} {
		b := newBoth(t)
		var l []share.Left
		var want, ends []int64
		for i := range int64(many) {
			id := i*by%many + 1
			b.s.Put(id, "x"[:id%2], id%4 > 0)
			l = append(l, share.Left{ID: (i*by+77)%many + 1, Left: 1})
			if n := i + 1; n%4 > 0 {
				want = append(want, n)
				if n%2 == 0 {
					ends = append(ends, n)
				}
			}
		}
		if got := b.s.Ready(1, l); !slices.Equal(got, want) {
			t.Errorf("P20.4: of streams put by %d Ready tells %d, want %d: %v", by, len(got), len(want), got)
		}
		for _, got := range [][]int64{b.s.Ready(0, l), b.s.Ready(1, nil)} {
			if !slices.Equal(got, ends) {
				t.Errorf("P20.4: of streams put by %d Ready tells %d, want %d: %v", by, len(got), len(ends), got)
			}
		}
	}
	b := newBoth(t)
	for _, id := range []int64{lastID, 2, 1 << 30, 1, 100, 9, 10} {
		b.wantPut(t, id, "", true, api.OK)
	}
	b.wantReady(t, 0, nil, 1, 2, 9, 10, 100, 1<<30, lastID)
}

// TestReadyChangesNothing: asked as often as one likes, all stays as it was.
func TestReadyChangesNothing(t *testing.T) {
	b := newBoth(t)
	b.wantPut(t, 4, "four", false, api.OK)
	b.wantPut(t, 2, "", true, api.OK)
	for range 20 {
		b.wantReady(t, 9, left(4, 1, 9, 9), 2, 4)
		b.wantReady(t, 9, left(4, 0), 2)
		b.wantWaits(t, 4, 4, false)
		b.wantWaits(t, 2, 0, true)
		b.wantWaits(t, 9, 0, false)
	}
	b.empty(t)
}

// TestReadyAndNext: what is ready gives a piece under the same windows, what isn't
// gives none.
func TestReadyAndNext(t *testing.T) {
	for _, conn := range windows() {
		for _, stream := range windows() {
			for _, text := range []string{"", "ab"} {
				for _, end := range []bool{false, true} {
					b := newBoth(t)
					b.wantPut(t, 3, text, end, api.OK)
					ready := b.holdReady(t, conn, left(3, stream))
					_, _, e := b.holdNext(t, 3, conn, stream, 1)
					if (len(ready) == 1) != (e == api.OK) {
						t.Errorf("P20.4, P20.5: %s: ready are %v, and Next answers %d", b.history(), ready, e)
					}
					b.empty(t)
				}
			}
		}
	}
}
