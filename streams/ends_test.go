package streams_test

import (
	"fmt"
	"math/rand"
	"strings"
	"testing"

	"herald/state"
	"herald/streams"
)

// ends are a client's and a server's table, and what is under way between them.
type ends struct {
	tables [2]*streams.Table // the client's, the server's
	under  [2][]act          // what was sent to each, and didn't come yet
	done   []move
}

// move: the end (0: the client) sends an event, or (kind 0) gets the first that is under way to it.
type move struct {
	end  int
	id   int64
	kind int
}

func newEnds() *ends { return &ends{tables: [2]*streams.Table{streams.New(true), streams.New(false)}} }

// send tells whether the end may send that; if so it is under way.
func (w *ends) send(t *testing.T, m move) bool {
	t.Helper()
	w.done = append(w.done, m)
	v := w.tables[m.end].Do(m.id, state.Event{Kind: m.kind})
	if v != fine && v != barred {
		t.Fatalf("P11.4: %v: what is sent is neither Fine nor Barred: %v", w.done, v)
	}
	if v == fine {
		w.under[1-m.end] = append(w.under[1-m.end], got(m.id, m.kind))
	}
	return v == fine
}

// get lets the first that is under way to an end come there.
func (w *ends) get(t *testing.T, end int) {
	t.Helper()
	w.done = append(w.done, move{end: end})
	x, a := w.tables[end], w.under[end][0]
	w.under[end] = w.under[end][1:]
	was, cut := x.State(a.id), x.Cut(a.id)
	v := x.Do(a.id, a.e)
	late := was == state.Closed && (a.e.Kind == state.Reset || a.e.Kind == state.Window || a.e.Kind == state.Priority)
	want := fine
	if cut || late {
		want = ignored
	}
	if v != want {
		t.Fatalf("P11.4: %v: %v comes where the state is %d (cut: %v): %v, want %v", w.done, a, was, cut, v, want)
	}
}

// try makes a move; false: it can't be made, or would lead past the most that may be under way.
func (w *ends) try(t *testing.T, m move, most int) bool {
	t.Helper()
	if m.kind == 0 {
		if len(w.under[m.end]) == 0 {
			return false
		}
		w.get(t, m.end)
		return true
	}
	return len(w.under[1-m.end]) < most && w.send(t, m)
}

// wantMirrored: nothing is under way, so the ends hold mirrored states.
func (w *ends) wantMirrored(t *testing.T, ids []int64) {
	t.Helper()
	mirror := []int{state.Idle, state.ReservedRemote, state.ReservedLocal, state.Open, state.HalfRemote, state.HalfLocal, state.Closed}
	c, s := w.tables[0], w.tables[1]
	for _, id := range ids {
		if s.State(id) != mirror[c.State(id)] {
			t.Fatalf("P11.4: %v: State(%d) is %d at the client, %d at the server", w.done, id, c.State(id), s.State(id))
		}
	}
	if c.Count(true) != s.Count(false) || c.Count(false) != s.Count(true) || c.Last(true) != s.Last(false) || c.Last(false) != s.Last(true) {
		t.Fatalf("P11.4: %v: the counts or the greatest are not the other end's", w.done)
	}
}

// sign tells two that were reached apart, if a move could.
func (w *ends) sign(ids []int64) string {
	var b strings.Builder
	for end, x := range w.tables {
		for _, id := range ids {
			fmt.Fprint(&b, x.State(id), x.Cut(id), " ")
		}
		fmt.Fprint(&b, w.under[end], ";")
	}
	return b.String()
}

// again makes the same moves with new tables.
func again(t *testing.T, done []move) *ends {
	t.Helper()
	w := newEnds()
	for _, m := range done {
		if m.kind == 0 {
			w.get(t, m.end)
		} else {
			w.send(t, m)
		}
	}
	return w
}

// moves are all that the ends can do with these streams.
func moves(ids []int64) []move {
	all := []move{{end: 0}, {end: 1}}
	for _, id := range ids {
		for kind := 1; kind <= kinds; kind++ {
			all = append(all, move{0, id, kind}, move{1, id, kind})
		}
	}
	return all
}

// TestAtOnce: P11.4: all that two ends can reach with four streams, where all that is sent comes at once.
func TestAtOnce(t *testing.T) {
	ids := []int64{1, 2, 3, 4}
	all := moves(ids)[2:]
	seen := map[string]bool{}
	for work := [][]move{nil}; len(work) > 0; work = work[1:] {
		for _, m := range all {
			w := again(t, work[0])
			if !w.send(t, m) {
				continue
			}
			w.get(t, 1-m.end)
			w.wantMirrored(t, ids)
			if s := w.sign(ids); !seen[s] {
				seen[s] = true
				work = append(work, w.done)
			}
		}
	}
	if len(seen) < 1000 {
		t.Errorf("only %d were reached", len(seen))
	}
}

// TestUnderWay: P11.4: all that two ends can reach with events under way: what was
// sent ahead of a reset comes behind it, and is Ignored; when all has come the
// states are mirrored.
func TestUnderWay(t *testing.T) {
	for _, c := range []struct {
		ids         []int64
		most, least int
	}{
		{[]int64{1}, 2, 1000},
		{[]int64{2}, 3, 1000},
		{[]int64{1, 2}, 1, 1000},
		{[]int64{1, 3}, 1, 1000},
		{[]int64{2, 4}, 1, 1000},
	} {
		if n := reach(t, c.ids, c.most); n < c.least {
			t.Errorf("with %v only %d were reached", c.ids, n)
		}
	}
}

// reach goes everywhere that two ends can come to with these streams and with at
// most so many events under way each way, and tells how many places these are.
func reach(t *testing.T, ids []int64, most int) int {
	t.Helper()
	all := moves(ids)
	seen := map[string]bool{}
	for work := [][]move{nil}; len(work) > 0; work = work[1:] {
		for _, m := range all {
			w := again(t, work[0])
			if !w.try(t, m, most) {
				continue
			}
			if len(w.under[0])+len(w.under[1]) == 0 {
				w.wantMirrored(t, ids)
			}
			if s := w.sign(ids); !seen[s] {
				seen[s] = true
				work = append(work, w.done)
			}
		}
	}
	return len(seen)
}

// TestLongWays: P11.4: long orders with much under way, and streams that are skipped.
func TestLongWays(t *testing.T) {
	var ids []int64
	for id := int64(1); id <= 60; id++ {
		ids = append(ids, id)
	}
	for seed := range int64(100) {
		r := rand.New(rand.NewSource(seed))
		w, most := newEnds(), 1+r.Intn(20)
		for range 600 {
			m := move{end: r.Intn(2)}
			if r.Intn(3) > 0 {
				x := w.tables[m.end]
				m.kind = 1 + r.Intn(kinds)
				m.id = x.Last(r.Intn(2) == 0) + r.Int63n(4)
				if live := x.Live(); len(live) > 0 && r.Intn(2) == 0 {
					m.id = live[r.Intn(len(live))]
				}
			}
			w.try(t, m, most)
		}
		for end := range w.under {
			for len(w.under[end]) > 0 {
				w.get(t, end)
			}
		}
		w.wantMirrored(t, ids)
	}
}

// TestBehindAReset: P11.4: what was under way when either end, or both, reset a stream.
func TestBehindAReset(t *testing.T) {
	c, s := streams.New(true), streams.New(false)
	wantFine(t, c, sent(1, state.Headers))
	wantFine(t, s, got(1, state.Headers))
	wantFine(t, s, sent(1, state.Headers), sent(1, state.Data), sent(2, state.Promise), sent(2, state.Headers), sent(2, state.DataEnd), sent(1, state.Reset))
	wantFine(t, c, sent(1, state.Window), sent(1, state.DataEnd), sent(1, state.Reset))
	for _, kind := range []int{state.Window, state.DataEnd, state.Reset} {
		wantDo(t, s, got(1, kind), ignored)
	}
	for _, kind := range []int{state.Headers, state.Data} {
		wantDo(t, c, got(1, kind), ignored)
	}
	wantFine(t, c, got(2, state.Promise), sent(2, state.Reset))
	for _, kind := range []int{state.Headers, state.DataEnd} {
		wantDo(t, c, got(2, kind), ignored)
	}
	wantDo(t, c, got(1, state.Reset), ignored)
	wantDo(t, s, got(2, state.Reset), ignored)
	for _, x := range []*streams.Table{c, s} {
		wantState(t, x, 1, state.Closed)
		wantState(t, x, 2, state.Closed)
		wantCut(t, x, 1, true)
		wantLive(t, x)
	}
	wantCut(t, c, 2, true)
	wantCut(t, s, 2, false)
}
