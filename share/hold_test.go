package share_test

import (
	"fmt"
	"slices"
	"strings"
	"testing"

	"herald/api"
	"herald/lists"
	"herald/share"
)

// both are a share and its model, under the same calls.
type both struct {
	s    *share.Share
	m    *model
	done []string

	// What was put and told of each stream since its last Drop, by the share's own
	// words.
	accounts map[int64]account
}

type account struct {
	put, told         string
	endsPut, endsTold int
}

const mostShownCalls = 12

// history is the calls so far, as an error tells them.
func (b *both) history() string {
	from := max(0, len(b.done)-mostShownCalls)
	return fmt.Sprintf("call %d: %s", len(b.done), strings.Join(b.done[from:], ", "))
}

func (b *both) note(format string, a ...any) { b.done = append(b.done, fmt.Sprintf(format, a...)) }

func newBoth(t *testing.T) *both {
	t.Helper()
	s := share.New()
	if s == nil {
		t.Fatal("New() is nil")
	}
	return &both{s: s, m: &model{}, accounts: map[int64]account{}}
}

func (b *both) holdPut(t *testing.T, id int64, text string, end bool) api.Errno {
	t.Helper()
	b.note("Put(%d, %s, %v)", id, lists.ShownText(text), end)
	want := b.m.put(id, text, end)
	e := b.s.Put(id, text, end)
	if e != want {
		t.Fatalf("P20.1: %s: %d, want %d", b.history(), e, want)
	}
	if e == api.OK {
		a := b.accounts[id]
		a.put += text
		if end {
			a.endsPut++
		}
		b.accounts[id] = a
	}
	b.holdWaits(t, id)
	return e
}

func (b *both) holdDrop(t *testing.T, id int64) bool {
	t.Helper()
	b.note("Drop(%d)", id)
	want := b.m.drop(id)
	waited := b.s.Drop(id)
	if waited != want {
		t.Fatalf("P20.2: %s: %v, want %v", b.history(), waited, want)
	}
	delete(b.accounts, id)
	b.holdWaits(t, id)
	return waited
}

func (b *both) holdWaits(t *testing.T, id int64) (int, bool) {
	t.Helper()
	want, wantEnd := len(b.m.bytes(id)), b.m.endWaits(id)
	n, end := b.s.Waits(id)
	if n != want || end != wantEnd {
		t.Fatalf("P20.3: %s: Waits(%d) = %d, %v, want %d, %v", b.history(), id, n, end, want, wantEnd)
	}
	return n, end
}

func (b *both) holdReady(t *testing.T, conn int64, l []share.Left) []int64 {
	t.Helper()
	want := b.m.ready(conn, l)
	got := b.s.Ready(conn, l)
	if !slices.Equal(got, want) {
		t.Fatalf("P20.4: %s: Ready(%d, %s) = %v, want %v", b.history(), conn, shown(l), got, want)
	}
	return got
}

func (b *both) holdNext(t *testing.T, id, conn, stream int64, frame int) (string, bool, api.Errno) {
	t.Helper()
	b.note("Next(%d, %d, %d, %d)", id, conn, stream, frame)
	want, wantLast, wantE := b.m.next(id, conn, stream, frame)
	piece, last, e := b.s.Next(id, conn, stream, frame)
	if piece != want || last != wantLast || e != wantE {
		t.Fatalf("P20.5: %s: %s, %v, %d, want %s, %v, %d", b.history(), lists.ShownText(piece), last, e, lists.ShownText(want), wantLast, wantE)
	}
	if e == api.OK {
		b.holdAccount(t, id, piece, last)
	}
	b.holdWaits(t, id)
	return piece, last, e
}

// holdAccount takes a piece down, and holds all that was told of the stream against
// all that was put.
func (b *both) holdAccount(t *testing.T, id int64, piece string, last bool) {
	t.Helper()
	a := b.accounts[id]
	if a.endsTold > 0 {
		t.Fatalf("P20.7: %s: a piece behind the end", b.history())
	}
	a.told += piece
	if last {
		a.endsTold++
	}
	b.accounts[id] = a
	if !strings.HasPrefix(a.put, a.told) || a.endsTold > a.endsPut || last && a.told != a.put {
		t.Fatalf("P20.7: %s: of %s with %d ends was told %s with %d", b.history(), lists.ShownText(a.put), a.endsPut, lists.ShownText(a.told), a.endsTold)
	}
}

func (b *both) wantPut(t *testing.T, id int64, text string, end bool, want api.Errno) {
	t.Helper()
	if e := b.holdPut(t, id, text, end); e != want {
		t.Errorf("P20.1: %s: %d, want %d", b.history(), e, want)
	}
}

func (b *both) wantDrop(t *testing.T, id int64, want bool) {
	t.Helper()
	if waited := b.holdDrop(t, id); waited != want {
		t.Errorf("P20.2: %s: %v, want %v", b.history(), waited, want)
	}
}

func (b *both) wantWaits(t *testing.T, id int64, want int, wantEnd bool) {
	t.Helper()
	if n, end := b.holdWaits(t, id); n != want || end != wantEnd {
		t.Errorf("P20.3: %s: Waits(%d) = %d, %v, want %d, %v", b.history(), id, n, end, want, wantEnd)
	}
}

func (b *both) wantReady(t *testing.T, conn int64, l []share.Left, want ...int64) {
	t.Helper()
	if got := b.holdReady(t, conn, l); !slices.Equal(got, want) {
		t.Errorf("P20.4: %s: Ready(%d, %s) = %v, want %v", b.history(), conn, shown(l), got, want)
	}
}

func (b *both) wantNext(t *testing.T, id, conn, stream int64, frame int, want string, wantLast bool) {
	t.Helper()
	if piece, last, e := b.holdNext(t, id, conn, stream, frame); piece != want || last != wantLast || e != api.OK {
		t.Errorf("P20.5: %s: %s, %v, %d, want %s, %v", b.history(), lists.ShownText(piece), last, e, lists.ShownText(want), wantLast)
	}
}

func (b *both) wantNo(t *testing.T, id, conn, stream int64, frame int, want api.Errno) {
	t.Helper()
	if piece, last, e := b.holdNext(t, id, conn, stream, frame); piece != "" || last || e != want {
		t.Errorf("P20.5: %s: %s, %v, %d, want %d", b.history(), lists.ShownText(piece), last, e, want)
	}
}

// look holds all that a share tells without a change: what waits of each stream
// that was named and of some others, and what may go.
func (b *both) look(t *testing.T) {
	t.Helper()
	var some, none, all []share.Left
	ids := b.m.ids()
	for i, id := range ids {
		b.holdWaits(t, id)
		all = append(all, share.Left{ID: id, Left: 1})
		none = append(none, share.Left{ID: id})
		some = append(some, share.Left{ID: id, Left: int64(i % 2)})
	}
	for _, id := range append(edgeIDs(), 2, 3, 5) {
		b.holdWaits(t, id)
	}
	for _, conn := range []int64{least, -1, 0, 1, greatest} {
		for _, l := range [][]share.Left{nil, some, none, all} {
			b.holdReady(t, conn, l)
		}
	}
}

// empty takes out of all streams all that waits, and looks at what is told to the
// end.
func (b *both) empty(t *testing.T) {
	t.Helper()
	b.look(t)
	for _, id := range b.m.ids() {
		for frame := 1; ; frame++ {
			if _, _, e := b.holdNext(t, id, greatest, greatest, frame); e != api.OK {
				break
			}
		}
		a := b.accounts[id]
		if a.told != a.put || a.endsTold != a.endsPut {
			t.Fatalf("P20.7: %s: of %s with %d ends was told %s with %d", b.history(), lists.ShownText(a.put), a.endsPut, lists.ShownText(a.told), a.endsTold)
		}
	}
	b.look(t)
	if got := b.s.Ready(greatest, left(1, 1, 2, 1, 3, 1, 5, 1, lastID, 1)); len(got) != 0 {
		t.Fatalf("P20.4: %s: all is gone, and %v may go", b.history(), got)
	}
}

// edgeIDs are numbers at the edges of what a stream may have.
func edgeIDs() []int64 {
	return []int64{least, least + 1, -1 << 31, -2, -1, 0, 1, lastID - 1, lastID, lastID + 1, 1 << 32, 1<<32 + 1, 1<<63 - 2, greatest}
}
