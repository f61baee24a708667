package streams_test

import (
	"slices"
	"testing"

	"herald/api"
	"herald/state"
	"herald/streams"
)

func wantDo(t *testing.T, x *streams.Table, a act, want state.Verdict) {
	t.Helper()
	if v := x.Do(a.id, a.e); v != want {
		t.Errorf("P11.1: Do(%v) = %v, want %v", a, v, want)
	}
}

// wantFine lets events happen that are all Fine.
func wantFine(t *testing.T, x *streams.Table, list ...act) {
	t.Helper()
	for _, a := range list {
		wantDo(t, x, a, fine)
	}
}

func wantState(t *testing.T, x *streams.Table, id int64, want int) {
	t.Helper()
	if s := x.State(id); s != want {
		t.Errorf("P11.1: State(%d) = %d, want %d", id, s, want)
	}
}

func wantCut(t *testing.T, x *streams.Table, id int64, want bool) {
	t.Helper()
	if cut := x.Cut(id); cut != want {
		t.Errorf("P11.1: Cut(%d) = %v, want %v", id, cut, want)
	}
}

func wantCount(t *testing.T, x *streams.Table, local bool, want int) {
	t.Helper()
	if n := x.Count(local); n != want {
		t.Errorf("P11.3: Count(%v) = %d, want %d", local, n, want)
	}
}

func wantNext(t *testing.T, x *streams.Table, want int64, there bool) {
	t.Helper()
	if n, ok := x.Next(); n != want || ok != there {
		t.Errorf("P11.1: Next() = %d, %v, want %d, %v", n, ok, want, there)
	}
}

func wantLast(t *testing.T, x *streams.Table, local bool, want int64) {
	t.Helper()
	if n := x.Last(local); n != want {
		t.Errorf("P11.1: Last(%v) = %d, want %d", local, n, want)
	}
}

func wantLive(t *testing.T, x *streams.Table, want ...int64) {
	t.Helper()
	if l := x.Live(); !slices.Equal(l, want) {
		t.Errorf("P11.3: Live() = %v, want %v", l, want)
	}
}

// TestExamplesOneToThree: they are one table's.
func TestExamplesOneToThree(t *testing.T) {
	x := streams.New(true)
	wantNext(t, x, 1, true)
	wantFine(t, x, sent(1, state.HeadersEnd))
	wantState(t, x, 1, state.HalfLocal)
	wantCount(t, x, true, 1)
	wantNext(t, x, 3, true)
	wantFine(t, x, got(2, state.Promise))
	wantState(t, x, 2, state.ReservedRemote)
	wantCount(t, x, false, 0)
	wantLast(t, x, false, 2)
	wantFine(t, x, got(2, state.Headers))
	wantCount(t, x, false, 1)
	wantLive(t, x, 1, 2)
	wantFine(t, x, got(2, state.DataEnd))
	wantState(t, x, 2, state.Closed)
	wantCount(t, x, false, 0)

	wantFine(t, x, got(6, state.Promise))
	wantState(t, x, 4, state.Closed)
	wantDo(t, x, got(4, state.Promise), protocolError)
	wantDo(t, x, got(4, state.Headers), streamClosed)
	wantDo(t, x, got(8, state.Headers), protocolError)
	wantDo(t, x, got(5, state.Headers), protocolError)
	wantDo(t, x, got(7, state.Promise), protocolError)
	wantDo(t, x, sent(8, state.Promise), barred)
	wantDo(t, x, sent(8, state.Headers), barred)

	wantFine(t, x, sent(6, state.Reset))
	wantCut(t, x, 6, true)
	wantState(t, x, 6, state.Closed)
	wantDo(t, x, got(6, state.Headers), ignored)
	wantDo(t, x, got(6, state.DataEnd), ignored)
	wantDo(t, x, got(6, state.Reset), ignored)
	wantDo(t, x, sent(6, state.Window), barred)
	wantDo(t, x, got(6, state.Promise), protocolError)
}

func TestExampleFour(t *testing.T) {
	x := streams.New(false)
	wantNext(t, x, 2, true)
	wantFine(t, x, got(5, state.HeadersEnd))
	wantState(t, x, 3, state.Closed)
	wantDo(t, x, got(3, state.Headers), streamClosed)
	wantFine(t, x, sent(2, state.Promise), sent(2, state.HeadersEnd))
	wantState(t, x, 2, state.Closed)
	wantNext(t, x, 4, true)
	wantDo(t, x, got(4, state.Headers), protocolError)
	wantDo(t, x, sent(7, state.Headers), barred)
	wantFine(t, x, got(9, state.Priority))
	wantState(t, x, 9, state.Idle)
}

func TestExampleFive(t *testing.T) {
	for _, client := range []bool{true, false} {
		x := streams.New(client)
		wantDo(t, x, sent(0, state.Headers), barred)
		wantDo(t, x, got(0, state.Data), protocolError)
		wantDo(t, x, got(1<<31, state.Data), protocolError)
		wantDo(t, x, sent(1, 9), barred)
		wantState(t, x, 0, state.Closed)
		wantState(t, x, -1, state.Closed)
	}
	x := streams.New(true)
	wantFine(t, x, sent(2147483647, state.Headers))
	wantNext(t, x, 0, false)
}

// TestNew: nothing is born at the beginning, and all that is a stream is Idle.
func TestNew(t *testing.T) {
	for _, client := range []bool{true, false} {
		x := streams.New(client)
		first := int64(2)
		if client {
			first = 1
		}
		wantNext(t, x, first, true)
		wantLast(t, x, true, 0)
		wantLast(t, x, false, 0)
		wantCount(t, x, true, 0)
		wantCount(t, x, false, 0)
		wantLive(t, x)
		for _, id := range edges() {
			wantCut(t, x, id, false)
			if id >= 1 && id <= api.MaxInt {
				wantState(t, x, id, state.Idle)
			} else {
				wantState(t, x, id, state.Closed)
			}
		}
	}
}

// TestNoKind: the first case of Do holds at every number, also at what is no stream,
// for what is sent and for what is got, and on a stream that is cut.
func TestNoKind(t *testing.T) {
	for _, client := range []bool{true, false} {
		x := withCut(t, client)
		for _, kind := range []int{least, -8, -1, 0, 9, 10, 1<<32 + 1, greatest} {
			for _, id := range append(edges(), 3, 4, 5, 6, 7, 8) {
				wantDo(t, x, sent(id, kind), barred)
				wantDo(t, x, got(id, kind), barred)
			}
		}
		wantLast(t, x, true, lastOf(client))
		wantLast(t, x, false, lastOf(!client))
	}
}

// withCut is a table in which 3, 4, 5 and 6 are born and 3 and 4 are cut; 1 and 2 were skipped.
func withCut(t *testing.T, client bool) *streams.Table {
	t.Helper()
	x := streams.New(client)
	for _, id := range []int64{3, 5} {
		wantFine(t, x, act{id, state.Event{Got: !client, Kind: state.Headers}})
	}
	for _, id := range []int64{4, 6} {
		wantFine(t, x, act{id, state.Event{Got: client, Kind: state.Promise}})
	}
	wantFine(t, x, sent(3, state.Reset), sent(4, state.Reset))
	return x
}

// lastOf is the greatest stream of withCut that is a client's, or a server's.
func lastOf(client bool) int64 {
	if client {
		return 5
	}
	return 6
}

// TestNoStream: the second case, of every kind.
func TestNoStream(t *testing.T) {
	for _, client := range []bool{true, false} {
		for _, x := range []*streams.Table{streams.New(client), withCut(t, client)} {
			live, ours, theirs := x.Live(), x.Last(true), x.Last(false)
			for _, id := range edges() {
				if id >= 1 && id <= api.MaxInt {
					continue
				}
				for kind := 1; kind <= kinds; kind++ {
					wantDo(t, x, sent(id, kind), barred)
					wantDo(t, x, got(id, kind), protocolError)
				}
				wantState(t, x, id, state.Closed)
				wantCut(t, x, id, false)
			}
			wantLive(t, x, live...)
			wantLast(t, x, true, ours)
			wantLast(t, x, false, theirs)
		}
	}
}

// TestBirths: the third case: which events are a birth, at either end, of odd and of
// even streams; all others leave the stream Idle.
func TestBirths(t *testing.T) {
	born := map[bool]map[bool][]state.Event{
		true: {
			true:  {{Kind: state.Headers}, {Kind: state.HeadersEnd}},
			false: {{Got: true, Kind: state.Promise}},
		},
		false: {
			true:  {{Got: true, Kind: state.Headers}, {Got: true, Kind: state.HeadersEnd}},
			false: {{Kind: state.Promise}},
		},
	}
	for _, client := range []bool{true, false} {
		for _, id := range []int64{1, 2, 3, 4, top - 1, top} {
			for _, e := range events() {
				x := streams.New(client)
				if slices.Contains(born[client][id%2 == 1], e) {
					want, _ := state.Next(state.Idle, e)
					wantFine(t, x, act{id, e})
					wantState(t, x, id, want)
					wantLast(t, x, (id%2 == 1) == client, id)
					wantLast(t, x, (id%2 == 1) != client, 0)
					continue
				}
				wantUnborn(t, x, act{id, e})
			}
		}
	}
}

// wantUnborn: an event that is no birth leaves a new table as it is.
func wantUnborn(t *testing.T, x *streams.Table, a act) {
	t.Helper()
	switch {
	case a.e.Kind == state.Priority:
		wantDo(t, x, a, fine)
	case a.e.Got:
		wantDo(t, x, a, protocolError)
	default:
		wantDo(t, x, a, barred)
	}
	wantState(t, x, a.id, state.Idle)
	wantLast(t, x, true, 0)
	wantLast(t, x, false, 0)
	wantLive(t, x)
	wantCut(t, x, a.id, false)
}

// TestCut: the fourth case: on a stream that is cut all that comes is Ignored but a
// promise, and what we may send is PRIORITY alone; it stays cut whatever happens.
func TestCut(t *testing.T) {
	for _, client := range []bool{true, false} {
		x := withCut(t, client)
		for _, id := range []int64{3, 4} {
			for range 2 {
				for _, e := range events() {
					switch {
					case e.Got && e.Kind == state.Promise:
						wantDo(t, x, act{id, e}, protocolError)
					case e.Got:
						wantDo(t, x, act{id, e}, ignored)
					case e.Kind == state.Priority:
						wantDo(t, x, act{id, e}, fine)
					default:
						wantDo(t, x, act{id, e}, barred)
					}
					wantCut(t, x, id, true)
					wantState(t, x, id, state.Closed)
				}
			}
		}
		wantLive(t, x, 5, 6)
	}
}

// TestNotCut: what the other end reset, what ended by itself, what was skipped and
// what is idle is not cut, and what comes there is judged by its state.
func TestNotCut(t *testing.T) {
	x := streams.New(true)
	wantFine(t, x, sent(3, state.Headers), got(3, state.Reset))
	wantFine(t, x, sent(5, state.HeadersEnd), got(5, state.HeadersEnd))
	for _, id := range []int64{1, 3, 5} {
		wantCut(t, x, id, false)
		wantState(t, x, id, state.Closed)
		wantDo(t, x, sent(id, state.Reset), barred)
		wantCut(t, x, id, false)
		wantDo(t, x, got(id, state.Data), streamClosed)
		wantDo(t, x, got(id, state.Reset), ignored)
	}
	wantDo(t, x, sent(7, state.Reset), barred)
	wantCut(t, x, 7, false)
	wantState(t, x, 7, state.Idle)
}

// TestSkipped: P11.2: a stream below one that was born is Closed for ever, whatever is tried on it.
func TestSkipped(t *testing.T) {
	for _, client := range []bool{true, false} {
		x := withCut(t, client)
		for _, id := range []int64{1, 2} {
			for range 2 {
				for _, e := range events() {
					_, want := state.Next(state.Closed, e)
					wantDo(t, x, act{id, e}, want)
					wantState(t, x, id, state.Closed)
					wantCut(t, x, id, false)
				}
			}
		}
		wantLive(t, x, 5, 6)
		wantState(t, x, 7, state.Idle)
		wantState(t, x, 8, state.Idle)
	}
}

// TestKindsApart: an odd birth skips no even stream, and an even one no odd stream.
func TestKindsApart(t *testing.T) {
	x := streams.New(true)
	wantFine(t, x, sent(7, state.Headers))
	wantState(t, x, 5, state.Closed)
	wantState(t, x, 6, state.Idle)
	wantState(t, x, 9, state.Idle)
	y := streams.New(true)
	wantFine(t, y, got(8, state.Promise))
	wantState(t, y, 6, state.Closed)
	wantState(t, y, 7, state.Idle)
	wantState(t, y, 10, state.Idle)
	wantNext(t, y, 1, true)
}

// TestNextAtTheEnd: the greatest numbers of each end.
func TestNextAtTheEnd(t *testing.T) {
	c := streams.New(true)
	wantFine(t, c, sent(top-2, state.Headers), got(top-1, state.Promise))
	wantNext(t, c, top, true)
	wantFine(t, c, sent(top, state.Headers))
	wantNext(t, c, 0, false)
	wantLast(t, c, true, top)
	wantLast(t, c, false, top-1)
	wantLive(t, c, top-2, top-1, top)
	wantDo(t, c, sent(top+2, state.Headers), barred)

	s := streams.New(false)
	wantFine(t, s, got(top, state.Headers), sent(top-3, state.Promise))
	wantNext(t, s, top-1, true)
	wantFine(t, s, sent(top-1, state.Promise))
	wantNext(t, s, 0, false)
	wantFine(t, s, sent(top-1, state.Reset), sent(top-3, state.Reset))
	wantNext(t, s, 0, false)
	wantDo(t, s, sent(top+1, state.Promise), barred)
	wantLive(t, s, top)
}

// TestNextIsBorn: what Next tells can be born, by the end whose table it is.
func TestNextIsBorn(t *testing.T) {
	c, s := streams.New(true), streams.New(false)
	for i := range int64(50) {
		wantNext(t, c, 1+2*i, true)
		wantNext(t, c, 1+2*i, true)
		wantFine(t, c, sent(1+2*i, state.Headers))
		wantNext(t, s, 2+2*i, true)
		wantFine(t, s, sent(2+2*i, state.Promise))
	}
	wantCount(t, c, true, 50)
	wantCount(t, s, true, 0)
	wantDo(t, c, sent(99, state.Headers), fine)
	wantNext(t, c, 101, true)
}

// TestLast: theirs and ours are told apart, and neither falls when a stream ends.
func TestLast(t *testing.T) {
	for _, client := range []bool{true, false} {
		x := withCut(t, client)
		wantLast(t, x, true, lastOf(client))
		wantLast(t, x, false, lastOf(!client))
		wantFine(t, x, sent(5, state.Reset), got(6, state.Reset))
		wantLast(t, x, true, lastOf(client))
		wantLast(t, x, false, lastOf(!client))
		wantLive(t, x)
	}
}

// TestCountAsStatesDo: P11.3: a stream counts in Open, HalfLocal and HalfRemote, by whoever's it is.
func TestCountAsStatesDo(t *testing.T) {
	x := streams.New(true)
	wantFine(t, x, sent(1, state.Headers), sent(3, state.HeadersEnd), sent(5, state.Headers), got(5, state.HeadersEnd), got(2, state.Promise), got(4, state.Promise), got(4, state.Headers))
	wantCount(t, x, true, 3)
	wantCount(t, x, false, 1)
	wantFine(t, x, sent(1, state.Reset), got(3, state.Reset), sent(5, state.DataEnd))
	wantCount(t, x, true, 0)
	wantFine(t, x, sent(2, state.Reset), sent(4, state.Reset))
	wantCount(t, x, false, 0)

	y := streams.New(false)
	wantFine(t, y, got(1, state.Headers), got(3, state.HeadersEnd), sent(2, state.Promise), sent(2, state.Headers))
	wantCount(t, y, true, 1)
	wantCount(t, y, false, 2)
}
