package state_test

import (
	"math/rand"
	"testing"

	"herald/state"
)

// stream is one stream by its state and by its book.
type stream struct {
	s int
	b book
}

// do is one event on both; it fails where the state and the words of P10.2 differ.
func (x stream) do(t *testing.T, e state.Event) stream {
	t.Helper()
	a := next(x.s, e)
	isFine := a.v.Kind == 0
	if e.Kind != 8 && isFine != x.b.allows(e) {
		t.Fatalf("P10.2: in the state %s, by the book %+v, %s is %v", stateNames[x.s], x.b, tell(e), a.v)
	}
	if !isFine {
		if a.s != x.s {
			t.Fatalf("P10.4: in the state %s, %s is %v, and leads to %d", stateNames[x.s], tell(e), a.v, a.s)
		}
		return x
	}
	y := stream{a.s, x.b.write(e)}
	if y.s != y.b.state() {
		t.Fatalf("P10.2: in the state %s, %s leads to %d, and the book is %+v", stateNames[x.s], tell(e), y.s, y.b)
	}
	if (y.s == 6) != y.b.closed() {
		t.Fatalf("P10.2: the state is %s, and the book is %+v", stateNames[y.s], y.b)
	}
	return y
}

// TestEveryOrder: all orders of five events out of sixteen, from Idle on.
func TestEveryOrder(t *testing.T) {
	all := events()
	var walk func(x stream, left int)
	walk = func(x stream, left int) {
		if left == 0 {
			return
		}
		for _, e := range all {
			walk(x.do(t, e), left-1)
		}
	}
	walk(stream{}, 5)
}

// TestAllReached: what can be reached from Idle at all, by orders of any length.
func TestAllReached(t *testing.T) {
	seen := map[stream]int{{}: 1}
	found := map[int]int{}
	work := []stream{{}}
	for len(work) > 0 {
		x := work[0]
		work = work[1:]
		found[x.s]++
		for _, e := range events() {
			if y := x.do(t, e); seen[y] == 0 {
				seen[y] = 1
				work = append(work, y)
			}
		}
	}
	for s := range states {
		if found[s] == 0 {
			t.Errorf("P10.2: the state %s is never reached", stateNames[s])
		}
	}
}

// TestLong: long orders of events, with few that end a stream, so that it lives long.
func TestLong(t *testing.T) {
	draw := rand.New(rand.NewSource(10))
	all := events()
	for range 500 {
		x := stream{}
		for range 100 {
			e := all[draw.Intn(len(all))]
			if ends := e.Kind == 2 || e.Kind == 4 || e.Kind == 6; ends && draw.Intn(20) > 0 {
				continue
			}
			x = x.do(t, e)
		}
	}
}

// TestBirths: the rights of both ends behind each birth, told by what they may send.
func TestBirths(t *testing.T) {
	cases := []struct {
		birth          state.Event
		weMay, theyMay bool
	}{
		{sent(1), true, true},
		{got(1), true, true},
		{sent(2), false, true},
		{got(2), true, false},
		{sent(5), true, false},
		{got(5), false, true},
	}
	for _, c := range cases {
		s := next(0, c.birth).s
		if may := next(s, sent(1)).v.Kind == 0; may != c.weMay {
			t.Errorf("P10.2: behind %s we may send HEADERS: %v", tell(c.birth), may)
		}
		if may := next(s, got(1)).v.Kind == 0; may != c.theyMay {
			t.Errorf("P10.2: behind %s the other end may send HEADERS: %v", tell(c.birth), may)
		}
		again := next(s, c.birth)
		if c.birth.Kind == 5 && again.v.Kind == 0 {
			t.Errorf("P10.2: %s twice is Fine", tell(c.birth))
		}
	}
}

// TestMirrors: each mirrored pair, and each event that the one end may send.
func TestMirrors(t *testing.T) {
	pairs := 0
	for s := range states {
		for kind := 1; kind <= kinds; kind++ {
			a := next(s, sent(kind))
			if a.v.Kind != 0 {
				continue
			}
			b := next(mirror(s), got(kind))
			if b.v.Kind != 0 && b.v.Kind != 1 {
				t.Errorf("P10.3: in the state %s we may send %s, and the other end says %v", stateNames[s], kindNames[kind-1], b.v)
			}
			if b.s != mirror(a.s) {
				t.Errorf("P10.3: in the state %s %s leads us to %d, and the other end to %d", stateNames[s], kindNames[kind-1], a.s, b.s)
			}
			pairs++
		}
	}
	if pairs != 4+4+3+7+3+7+1 { // the cells of the first table that aren't Barred, row by row
		t.Errorf("P10.3: %d events may be sent, want 29", pairs)
	}
}

// TestMirrorBothWays: what comes as Fine is just what the mirrored end may send; but
// Priority, which may be sent of a closed stream too, is Ignored there.
func TestMirrorBothWays(t *testing.T) {
	for s := range states {
		for kind := 1; kind <= kinds; kind++ {
			may := next(s, sent(kind)).v.Kind == 0
			comes := next(mirror(s), got(kind)).v.Kind == 0
			if may != comes && (s != 6 || kind != 8) {
				t.Errorf("P10.3: state %s, %s: may be sent: %v; comes as Fine: %v", stateNames[s], kindNames[kind-1], may, comes)
			}
		}
	}
}

// ends are two ends of one stream.
type ends [2]int

// send lets an end send, if it may, and the other get it at once.
func (x ends) send(t *testing.T, end, kind int) ends {
	t.Helper()
	a := next(x[end], sent(kind))
	if a.v.Kind == 0 {
		b := next(x[1-end], got(kind))
		if b.v.Kind > 1 {
			t.Fatalf("P10.3: at %v end %d may send %s, and the other says %v", x, end, kindNames[kind-1], b.v)
		}
		x[end], x[1-end] = a.s, b.s
	}
	if x[1] != mirror(x[0]) {
		t.Fatalf("P10.3: behind %s of end %d the states are %v", kindNames[kind-1], end, x)
	}
	return x
}

// TestTwoEnds: all orders of five events of two ends, and long ones.
func TestTwoEnds(t *testing.T) {
	var walk func(x ends, left int)
	walk = func(x ends, left int) {
		if left == 0 {
			return
		}
		for kind := 1; kind <= kinds; kind++ {
			walk(x.send(t, 0, kind), left-1)
			walk(x.send(t, 1, kind), left-1)
		}
	}
	walk(ends{}, 5)
	draw := rand.New(rand.NewSource(3))
	for range 500 {
		x := ends{}
		for range 60 {
			x = x.send(t, draw.Intn(2), 1+draw.Intn(kinds))
		}
	}
}

// TestClosedStays: Closed is left by nothing, not by what is no event either.
func TestClosedStays(t *testing.T) {
	for kind := -300; kind <= 300; kind++ {
		for _, e := range []state.Event{sent(kind), got(kind)} {
			if a := next(6, e); a.s != 6 {
				t.Errorf("P10.4: Next(Closed, %s) leads to %d", tell(e), a.s)
			}
		}
	}
}

// TestVerdicts: which verdicts there are each way, that all but Fine leave the state,
// and that just the errors have a code.
func TestVerdicts(t *testing.T) {
	for s := range states {
		for _, e := range events() {
			a := next(s, e)
			k := a.v.Kind
			if !e.Got && k != 0 && k != 4 {
				t.Errorf("P10.4: Next(%s, %s) = %v: what we send is Fine or Barred", stateNames[s], tell(e), a)
			}
			if e.Got && (k < 0 || k > 3) {
				t.Errorf("P10.4: Next(%s, %s) = %v: what we get is never Barred", stateNames[s], tell(e), a)
			}
			if k != 0 && a.s != s {
				t.Errorf("P10.4: Next(%s, %s) = %v: the state moved", stateNames[s], tell(e), a)
			}
			if a.s < 0 || a.s >= states {
				t.Errorf("P10.1: Next(%s, %s) = %v: that is no state", stateNames[s], tell(e), a)
			}
			if isError := k == 2 || k == 3; isError != (a.v.Code != 0) {
				t.Errorf("P10.1: Next(%s, %s) = %v: a code just with an error", stateNames[s], tell(e), a)
			}
		}
	}
}

// FuzzOrders: any order of events on two ends, each against its book.
func FuzzOrders(f *testing.F) {
	f.Add("\x00\x03\x05")
	f.Add("\x09\x0d\x00\x06\x04")
	f.Fuzz(func(t *testing.T, order string) {
		x, y := stream{}, ends{}
		all := events()
		for i := range len(order) {
			e := all[int(order[i])%len(all)]
			x = x.do(t, e)
			end := 0
			if e.Got {
				end = 1
			}
			y = y.send(t, end, e.Kind)
		}
	})
}
