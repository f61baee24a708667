package state_test

import (
	"sync"
	"testing"

	"herald/api"
	"herald/state"
)

func sent(kind int) state.Event { return state.Event{Kind: kind} }

func got(kind int) state.Event { return state.Event{Got: true, Kind: kind} }

// want holds one call of Next against the state and the verdict that are given.
func want(t *testing.T, s int, e state.Event, behind int, v state.Verdict) {
	t.Helper()
	if a := next(s, e); a != (answer{behind, v}) {
		t.Errorf("P10.1: Next(%d, %s) = %v, want %v", s, tell(e), a, answer{behind, v})
	}
}

func fine() state.Verdict { return state.Verdict{Kind: state.Fine} }

func barred() state.Verdict { return state.Verdict{Kind: state.Barred} }

func connError(code int64) state.Verdict { return state.Verdict{Kind: state.ConnError, Code: code} }

func TestExampleOne(t *testing.T) {
	want(t, state.Idle, sent(state.HeadersEnd), state.HalfLocal, fine())
	want(t, state.HalfLocal, got(state.HeadersEnd), state.Closed, fine())
	want(t, state.Closed, got(state.Window), state.Closed, state.Verdict{Kind: state.Ignored})
	want(t, state.Closed, got(state.Data), state.Closed, connError(api.StreamClosed))
}

func TestExampleTwo(t *testing.T) {
	want(t, state.Idle, got(state.Promise), state.ReservedRemote, fine())
	want(t, state.ReservedRemote, got(state.Headers), state.HalfLocal, fine())
	want(t, state.HalfLocal, got(state.DataEnd), state.Closed, fine())
	want(t, state.ReservedRemote, got(state.Data), state.ReservedRemote, connError(api.ProtocolError))
	want(t, state.ReservedRemote, sent(state.Window), state.ReservedRemote, fine())
	want(t, state.ReservedRemote, sent(state.Headers), state.ReservedRemote, barred())
}

func TestExampleThree(t *testing.T) {
	want(t, state.HalfRemote, got(state.Data), state.HalfRemote, state.Verdict{Kind: state.StreamError, Code: api.StreamClosed})
	want(t, state.HalfRemote, sent(state.Reset), state.Closed, fine())
}

func TestExampleFour(t *testing.T) {
	want(t, 7, sent(state.Priority), 7, barred())
	want(t, -1, got(state.Headers), -1, barred())
	want(t, state.Open, got(0), state.Open, barred())
	want(t, state.Open, got(9), state.Open, barred())
	if !state.Counts(state.Open) {
		t.Error("P10.1: Counts(Open) = false")
	}
	for _, s := range []int{state.ReservedLocal, state.Closed, 9} {
		if state.Counts(s) {
			t.Errorf("P10.1: Counts(%d) = true", s)
		}
	}
}

// TestNumbers: the names have the chapter's numbers.
func TestNumbers(t *testing.T) {
	all := map[string][]int{
		"state":   {state.Idle, state.ReservedLocal, state.ReservedRemote, state.Open, state.HalfLocal, state.HalfRemote, state.Closed},
		"kind":    {0, state.Headers, state.HeadersEnd, state.Data, state.DataEnd, state.Promise, state.Reset, state.Window, state.Priority},
		"verdict": {state.Fine, state.Ignored, state.StreamError, state.ConnError, state.Barred},
	}
	for name, list := range all {
		for n, number := range list {
			if number != n {
				t.Errorf("P10.1: the %s that should have the number %d has %d", name, n, number)
			}
		}
	}
	if api.ProtocolError != protocolError || api.StreamClosed != streamClosed {
		t.Error("the codes have other numbers than the tables")
	}
}

// TestTables: every cell of both tables, the state behind it, the verdict and its code.
func TestTables(t *testing.T) {
	cells := 0
	for s := range states {
		for _, e := range events() {
			if a, w := next(s, e), model(s, e); a != w {
				t.Errorf("P10.1: Next(%s, %s) = %v, want %v", stateNames[s], tell(e), a, w)
			}
			cells++
		}
	}
	if cells != 2*7*8 {
		t.Errorf("%d cells were looked at", cells)
	}
}

// noStates and noKinds are numbers that are none: beside the range, such as agree with
// one in it when their upper bits are lost, and the last at either end.
func noStates() []int {
	return []int{-1, 7, -2, 8, 9, 255, 256, 259, 1 << 16, 1<<16 + 3, 1 << 32, 1<<32 + 3, -1 << 32, greatest - 1, greatest, least, least + 1, least + 3}
}

func noKinds() []int {
	return []int{0, 9, -1, 10, -8, 255, 256, 257, 1<<16 + 1, 1 << 32, 1<<32 + 1, -1 << 32, greatest - 1, greatest, least, least + 1, least + 8}
}

// TestNone: what is no state, what is no kind, and both.
func TestNone(t *testing.T) {
	for _, way := range []bool{false, true} {
		for s := range states {
			for _, kind := range noKinds() {
				want(t, s, state.Event{Got: way, Kind: kind}, s, barred())
			}
		}
		for _, s := range noStates() {
			for kind := 1; kind <= kinds; kind++ {
				want(t, s, state.Event{Got: way, Kind: kind}, s, barred())
			}
			for _, kind := range noKinds() {
				want(t, s, state.Event{Got: way, Kind: kind}, s, barred())
			}
		}
	}
}

// TestRanges: every number some way around both ranges.
func TestRanges(t *testing.T) {
	for s := -300; s <= 300; s++ {
		for kind := -20; kind <= 300; kind++ {
			for _, e := range []state.Event{sent(kind), got(kind)} {
				if a, w := next(s, e), model(s, e); a != w {
					t.Fatalf("P10.1: Next(%d, %s) = %v, want %v", s, tell(e), a, w)
				}
			}
		}
	}
}

func TestCounts(t *testing.T) {
	for s := -300; s <= 300; s++ {
		if w := s >= 3 && s <= 5; state.Counts(s) != w {
			t.Errorf("P10.1: Counts(%d) = %v, want %v", s, !w, w)
		}
	}
	for _, s := range noStates() {
		if state.Counts(s) {
			t.Errorf("P10.1: Counts(%d) = true of what is no state", s)
		}
	}
}

// TestArgumentsAlone: whatever was asked before, the answer is the same.
func TestArgumentsAlone(t *testing.T) {
	var asked []ask
	for s := -1; s <= states; s++ {
		for kind := 0; kind <= kinds+1; kind++ {
			asked = append(asked, ask{s, sent(kind)}, ask{s, got(kind)})
		}
	}
	for _, first := range asked {
		for _, then := range asked {
			next(first.s, first.e)
			state.Counts(first.s)
			if a, w := next(then.s, then.e), model(then.s, then.e); a != w {
				t.Fatalf("P10.1: behind Next(%d, %s), Next(%d, %s) = %v, want %v", first.s, tell(first.e), then.s, tell(then.e), a, w)
			}
			if c := state.Counts(then.s); c != (then.s >= 3 && then.s <= 5) {
				t.Fatalf("P10.1: behind Counts(%d), Counts(%d) = %v", first.s, then.s, c)
			}
		}
	}
}

type ask struct {
	s int
	e state.Event
}

// TestAtOnce: calls at the same time don't meet one another.
func TestAtOnce(t *testing.T) {
	var all sync.WaitGroup
	for worker := range 8 {
		all.Go(func() {
			for i := range 2000 {
				s, kind := (i+worker)%9-1, (i/9+worker)%10
				e := state.Event{Got: i%2 == 0, Kind: kind}
				if a, w := next(s, e), model(s, e); a != w {
					t.Errorf("P10.1: at the same time as others Next(%d, %s) = %v, want %v", s, tell(e), a, w)
					return
				}
			}
		})
	}
	all.Wait()
}

func FuzzNext(f *testing.F) {
	for s := range states {
		for _, e := range events() {
			f.Add(s, e.Got, e.Kind)
		}
	}
	for _, n := range noStates() {
		f.Add(n, true, 1)
		f.Add(3, false, n)
	}
	f.Fuzz(func(t *testing.T, s int, way bool, kind int) {
		e := state.Event{Got: way, Kind: kind}
		if a, w := next(s, e), model(s, e); a != w {
			t.Fatalf("P10.1: Next(%d, %s) = %v, want %v", s, tell(e), a, w)
		}
		if c := state.Counts(s); c != (s >= 3 && s <= 5) {
			t.Fatalf("P10.1: Counts(%d) = %v", s, c)
		}
	})
}
