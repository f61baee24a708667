package share_test

import (
	"math"
	"slices"
	"testing"

	"herald/api"
	"herald/share"
)

func TestExampleOne(t *testing.T) { afterExampleOne(t).look(t) }

func afterExampleOne(t *testing.T) *both {
	t.Helper()
	b := newBoth(t)
	b.wantPut(t, 1, "hello", false, api.OK)
	b.wantPut(t, 3, "", true, api.OK)
	b.wantReady(t, 0, nil, 3)
	b.wantReady(t, 9, left(1, 0), 3)
	b.wantReady(t, 9, left(1, 2, 1, 0), 1, 3)
	b.wantWaits(t, 1, 5, false)
	b.wantWaits(t, 3, 0, true)
	b.wantWaits(t, 5, 0, false)
	return b
}

func TestExampleTwo(t *testing.T) { afterExampleTwo(t).empty(t) }

func afterExampleTwo(t *testing.T) *both {
	t.Helper()
	b := afterExampleOne(t)
	b.wantNext(t, 1, 9, 2, 100, "he", false)
	b.wantPut(t, 1, "!", true, api.OK)
	b.wantPut(t, 1, "", false, api.ErrState)
	b.wantNext(t, 1, 9, 9, 3, "llo", false)
	b.wantNo(t, 1, 0, 9, 3, api.ErrFull)
	b.wantNext(t, 1, 9, 9, 3, "!", true)
	b.wantNo(t, 1, 9, 9, 3, api.ErrNone)
	b.wantPut(t, 1, "x", false, api.ErrState)
	b.wantDrop(t, 1, false)
	b.wantPut(t, 1, "x", false, api.OK)
	return b
}

func TestExampleThree(t *testing.T) {
	b := afterExampleTwo(t)
	b.wantNext(t, 3, 0, 0, 1, "", true)
	b.wantNo(t, 3, 0, 0, 0, api.ErrArg)
	b.wantPut(t, 0, "", false, api.ErrArg)
	b.wantPut(t, 2147483648, "x", true, api.ErrArg)
	b.empty(t)
}

func TestExampleFour(t *testing.T) {
	wantPick(t, []int64{5, 7, 9}, 4, 7, true)
	wantPick(t, []int64{5, 7, 9}, -1, 9, true)
	wantPick(t, nil, 0, 0, false)
}

// TestNumbers: the errors and the limit are those that the document has.
func TestNumbers(t *testing.T) {
	if api.ErrArg != argError || api.ErrNone != noneError || api.ErrFull != fullError || api.ErrState != stateError || api.MaxInt != lastID {
		t.Error("an error or the limit has another number")
	}
}

// TestNew: nothing waits in a new share, and nothing is over.
func TestNew(t *testing.T) {
	newBoth(t).empty(t)
	for _, id := range edgeIDs() {
		b := newBoth(t)
		b.wantWaits(t, id, 0, false)
		b.wantReady(t, 9, left(id, 9))
		b.wantNo(t, id, 9, 9, 9, api.ErrNone)
		b.wantDrop(t, id, false)
		b.look(t)
	}
}

func wantPick(t *testing.T, ids []int64, n int, want int64, wantIs bool) {
	t.Helper()
	if id, is := share.Pick(ids, n); id != want || is != wantIs {
		t.Errorf("P20.6: Pick(%v, %d) = %d, %v, want %d, %v", ids, n, id, is, want, wantIs)
	}
}

func TestPickNone(t *testing.T) {
	for _, n := range []int{math.MinInt, -2, -1, 0, 1, 2, math.MaxInt} {
		wantPick(t, nil, n, 0, false)
		wantPick(t, []int64{}, n, 0, false)
		wantPick(t, []int64{7, 9}[:0], n, 0, false)
	}
}

func TestPickOne(t *testing.T) {
	for _, n := range []int{math.MinInt, -2, -1, 0, 1, 2, math.MaxInt} {
		for _, id := range append(edgeIDs(), 7) {
			wantPick(t, []int64{id}, n, id, true)
		}
	}
}

// TestPickRound: from each place on both ways round, each is picked in its turn.
func TestPickRound(t *testing.T) {
	ids := []int64{9, 5, 7, 5, least}
	for n := range ids {
		for round := -3; round <= 3; round++ {
			wantPick(t, ids, n+round*len(ids), ids[n], true)
		}
	}
	wantPick(t, []int64{5, 7, 9}, -3, 5, true)
	wantPick(t, []int64{5, 7, 9}, -4, 9, true)
	wantPick(t, []int64{5, 7, 9}, 3, 5, true)
}

// TestPickFar: the least and the greatest numbers, of as many as one likes.
func TestPickFar(t *testing.T) {
	wantPick(t, []int64{5, 7, 9}, math.MaxInt, 7, true)
	wantPick(t, []int64{5, 7, 9}, math.MinInt, 7, true)
	wantPick(t, []int64{5, 7}, math.MaxInt, 7, true)
	wantPick(t, []int64{5, 7}, math.MinInt, 5, true)
	for many := 1; many <= 40; many++ {
		ids := make([]int64, many)
		for i := range ids {
			ids[i] = int64(100 + i)
		}
		for by := range 2*many + 2 {
			for _, n := range []int{by, -by, math.MaxInt - by, math.MinInt + by} {
				want, is := modelPick(ids, n)
				wantPick(t, ids, n, want, is)
			}
		}
	}
}

// TestPickTakesThemAsTheyAre: neither sorted nor put together.
func TestPickTakesThemAsTheyAre(t *testing.T) {
	for _, ids := range all(4, int64(3), 1, 0) {
		for n := range ids {
			wantPick(t, ids, n, ids[n], true)
			wantPick(t, ids, n-len(ids), ids[n], true)
		}
	}
	ids := []int64{9, 1, 9}
	wantPick(t, ids, 0, 9, true)
	if !slices.Equal(ids, []int64{9, 1, 9}) {
		t.Errorf("P20.8: Pick changed the list to %v", ids)
	}
}
