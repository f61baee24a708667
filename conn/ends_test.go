package conn_test

import (
	"fmt"
	"math/rand"
	"slices"
	"testing"

	"herald/api"
	"herald/lists"
)

// side is one end of two whose bytes are carried to one another.
type side struct {
	*both
	pipe   string      // on its way to this end
	heard  int         // frames, that it has read
	expect []api.Event // what the other end is to hear of each frame that this one sent; Kind 0: nothing
	sent   int         // entries of the log that were looked at
}

// wire is two ends under random calls.
type wire struct {
	r     *rand.Rand
	ends  []*side // the client, the server
	tried map[string]int
}

func newWire(t *testing.T, r *rand.Rand) *wire {
	t.Helper()
	w := &wire{r: r, tried: map[string]int{}}
	for _, client := range []bool{true, false} {
		w.ends = append(w.ends, &side{both: newBoth(t, client, randomSet(r))})
	}
	return w
}

// randomSet is one that fits, and in which not all is at an edge.
func randomSet(r *rand.Rand) api.Set {
	set := standard()
	set.Table = oneOf(r, int64(0), 33, 100, 4096, 65536)
	set.Push = oneOf(r, int64(0), 1, 1, 1)
	set.Streams = oneOf(r, int64(0), 1, 2, 5, top)
	set.Window = oneOf(r, int64(0), 1, 10, 100, 65535, 70000, top)
	set.Frame = oneOf(r, int64(16384), 16385, 65536)
	set.List = oneOf(r, int64(1024), 40000, top)
	return set
}

func oneOf[T any](r *rand.Rand, l ...T) T { return l[r.Intn(len(l))] }

func randomFields(r *rand.Rand) []api.Field {
	var l []api.Field
	for range r.Intn(5) {
		l = append(l, api.Field{Name: oneOf(r, ":method", "a", "b", "cookie", "x-long"), Value: oneOf(r, "", "GET", "b", "c", "value", long(40)), Never: r.Intn(6) == 0})
	}
	switch r.Intn(20) {
	case 0:
		l = append(l, listOf(33+r.Intn(40000))...)
	case 1:
		l = append(l, api.Field{Name: "big", Value: long(r.Intn(4200))})
	}
	return l
}

// went lays what a side has sent into the other's pipe, and takes down what is to be
// heard of it; last is what is to be heard of a block's last frame.
func (w *wire) went(i int, text string, last api.Event) {
	w.ends[i].t.Helper()
	s := w.ends[i]
	w.ends[1-i].pipe += text
	log := s.c.Log()
	for _, x := range log[s.sent:] {
		if !x.Sent {
			continue
		}
		var e api.Event
		switch f := x.F; {
		case f.Type == api.FrameData:
			e = dataEvent(f.Stream, f.Data, f.Flags&api.EndStream > 0)
		case f.Type == api.FrameReset:
			e = resetEvent(f.Stream, f.Code)
		case f.Type == api.FrameSettings && f.Flags == 0:
			e = settled()
		case f.Type == api.FrameSettings:
			e = acked()
		case f.Flags&api.EndHeaders > 0 && f.Type != api.FramePing:
			e = last
		}
		s.expect = append(s.expect, e)
	}
	s.sent = len(log)
}

// stream is mostly one that lives.
func (w *wire) stream(s *side) int64 {
	var live []int64
	for id := range s.m.streams {
		if s.m.state(id) != closed {
			live = append(live, id)
		}
	}
	slices.Sort(live)
	if len(live) == 0 || w.r.Intn(10) == 0 {
		return int64(w.r.Intn(20) - 1)
	}
	return oneOf(w.r, live...)
}

func (w *wire) step() {
	i := w.r.Intn(2)
	s := w.ends[i]
	s.t.Helper()
	end := w.r.Intn(3) == 0
	switch n := w.r.Intn(24); {
	case n < 3:
		w.went(i, s.control(), api.Event{})
	case n < 6:
		fields := randomFields(w.r)
		id, text, e := s.open(fields, end)
		w.went(i, text, headEvent(id, fields, end))
		w.tried[fmt.Sprint("open ", int(e))]++
	case n < 9:
		fields, id := randomFields(w.r), w.stream(s)
		text, e := s.head(id, fields, end)
		w.went(i, text, headEvent(id, fields, end))
		w.tried[fmt.Sprint("head ", int(e))]++
	case n < 11:
		fields, id := randomFields(w.r), w.stream(s)
		promised, text, e := s.promise(id, fields)
		w.went(i, text, promiseEvent(id, promised, fields))
		w.tried[fmt.Sprint("promise ", int(e))]++
	case n < 14:
		piece := long(oneOf(w.r, 0, 1, 2, 9, 300, 20000))
		_, text, e := s.data(w.stream(s), piece, end)
		w.went(i, text, api.Event{})
		w.tried[fmt.Sprint("data ", int(e))]++
	case n < 15:
		w.tried[fmt.Sprint("reset ", int(s.reset(w.stream(s), w.r.Int63n(1<<32))))]++
	case n < 16:
		w.tried[fmt.Sprint("settings ", int(s.settings(randomSet(w.r))))]++
	default:
		w.deliver(i, oneOf(w.r, 1, 8, 9, 20, 100, 5000, 1<<20))
	}
}

// deliver carries so many bytes to an end, and holds what it hears of each frame.
func (w *wire) deliver(i, n int) {
	s, from := w.ends[i], w.ends[1-i]
	s.t.Helper()
	n = min(n, len(s.pipe))
	s.push(s.pipe[:n])
	s.pipe = s.pipe[n:]
	for {
		if s.heard == len(from.expect) {
			if _, is := s.next(); is {
				s.t.Fatalf("P21.3: %s: more is heard than was sent", s.history())
			}
			return
		}
		x := from.expect[s.heard]
		over := x.Stream != 0 && s.c.State(x.Stream) == closed
		events, is := s.next()
		if !is {
			return
		}
		s.heard++
		w.hold(s, x, over, events)
	}
}

// hold is what an end hears of one frame: what was sent, unless it has closed the
// stream.
func (w *wire) hold(s *side, x api.Event, over bool, events []api.Event) {
	s.t.Helper()
	if code, dead := s.c.Dead(); dead {
		s.t.Fatalf("P21.3: %s: dead of %d", s.history(), code)
	}
	want := []api.Event{x}
	switch {
	case x.Kind == 0:
		want = nil
	case over && x.Kind == api.EventPromise:
		want = []api.Event{resetEvent(x.Promised, cancelled)}
	case over:
		want = nil
	}
	if !sameEvents(events, want) {
		s.t.Fatalf("P21.3: %s: hears %s, want %s", s.history(), shownEvents(events), shownEvents(want))
	}
	w.tried[fmt.Sprint("heard ", x.Kind, " ", over)]++
}

// quiet carries all to both ends till nothing is left to say, and looks at what both
// have then.
func (w *wire) quiet() {
	c, s := w.ends[0], w.ends[1]
	c.t.Helper()
	for range 20 {
		for i := range w.ends {
			w.went(i, w.ends[i].control(), api.Event{})
			w.deliver(1-i, 1<<30)
		}
	}
	if c.c.Waits() || s.c.Waits() || c.heard != len(s.expect) || s.heard != len(c.expect) {
		c.t.Fatalf("P21.3: %s: the ends don't come to rest", c.history())
	}
	mirrored := []int{idle, reservedRemote, reservedLocal, open, halfRemote, halfLocal, closed}
	for id := int64(0); id < max(c.m.last(true), c.m.last(false))+3; id++ {
		a, b := c.c.State(id), s.c.State(id)
		if a != mirrored[b] {
			c.t.Fatalf("P21.3: %s: stream %d is %d at the client and %d at the server", c.history(), id, a, b)
		}
		for _, x := range w.ends {
			// Of what ends a stream nothing is given back for it.
			if at := x.c.State(id); id > 0 && at != closed && at != idle && at != halfLocal && x.c.Window(id) != x.c.Theirs().Window {
				x.t.Fatalf("P21.4: %s: all was given back, and the window of %d is %d", x.history(), id, x.c.Window(id))
			}
		}
	}
	if c.c.Window(0) != 65535 || s.c.Window(0) != 65535 {
		c.t.Fatalf("P21.4: %s: all was given back, and the connection's windows are %d and %d", c.history(), c.c.Window(0), s.c.Window(0))
	}
	if c.c.Theirs() != s.c.Ours() || s.c.Theirs() != c.c.Ours() {
		c.t.Fatalf("P21.3: %s: %v of %v, %v of %v", c.history(), c.c.Theirs(), s.c.Ours(), s.c.Theirs(), c.c.Ours())
	}
	for _, x := range w.ends {
		x.holdSums()
		x.whole()
	}
}

// TestTwoEnds: random calls at both, their bytes carried in pieces of any size:
// neither dies, and each hears what the other sent.
func TestTwoEnds(t *testing.T) {
	r := rand.New(rand.NewSource(212))
	tried := map[string]int{}
	for range 700 {
		w := newWire(t, r)
		if r.Intn(4) > 0 {
			w.quiet()
		}
		for range 150 {
			w.step()
		}
		for _, s := range w.ends {
			s.holdSums()
		}
		w.quiet()
		for what, n := range w.tried {
			tried[what] += n
		}
	}
	for _, what := range []string{
		"open 0", "open 6", "open 8", "open 51", "head 0", "head 6", "head 8", "head 51", "promise 0", "promise 8", "promise 51", "data 0", "data 1", "data 6", "data 8",
		"reset 0", "reset 8", "settings 0", "heard 1 false", "heard 1 true", "heard 2 false", "heard 2 true", "heard 3 false", "heard 3 true", "heard 4 false", "heard 4 true",
		"heard 5 false", "heard 6 false", "heard 0 false",
	} {
		if tried[what] < 20 {
			t.Errorf("%s %d times: too few to tell", what, tried[what])
		}
	}
}

// TestLongTalk: one request after the other, each with a body, a push and its end: the
// windows come back, and the numbers go on.
func TestLongTalk(t *testing.T) {
	w := newWire(t, rand.New(rand.NewSource(213)))
	w.ends = []*side{{both: newBoth(t, true, standard())}, {both: newBoth(t, false, standard())}}
	c, s := w.ends[0], w.ends[1]
	w.quiet()
	for i := range int64(60) {
		id, text, e := c.open(request(), false)
		c.must(e)
		w.went(0, text, headEvent(id, request(), false))
		for _, end := range []bool{false, true} {
			_, text, e = c.data(id, long(9000), end)
			c.must(e)
			w.went(0, text, api.Event{})
		}
		w.deliver(1, 1<<30)
		promised, text, e := s.promise(id, request())
		s.must(e)
		w.went(1, text, promiseEvent(id, promised, request()))
		for _, stream := range []int64{id, promised} {
			fields := append(answer(), api.Field{Name: "number", Value: fmt.Sprint(i / 3)})
			text, e = s.head(stream, fields, false)
			s.must(e)
			w.went(1, text, headEvent(stream, fields, false))
			_, text, e = s.data(stream, long(12000), true)
			s.must(e)
			w.went(1, text, api.Event{})
		}
		w.deliver(0, 1<<30)
		w.went(0, c.control(), api.Event{})
		w.deliver(1, 1<<30)
		if id != 2*i+1 || promised != 2*i+2 || c.c.State(id) != closed || s.c.State(promised) != closed {
			t.Fatalf("P21.3: %s: %d, %d", c.history(), id, promised)
		}
	}
	w.quiet()
}

// TestLateFrames: what crosses a reset is unpacked, given back and not heard.
func TestLateFrames(t *testing.T) {
	w := newWire(t, rand.New(rand.NewSource(214)))
	w.ends = []*side{{both: newBoth(t, true, standard())}, {both: newBoth(t, false, standard())}}
	c, s := w.ends[0], w.ends[1]
	w.quiet()
	id, text, _ := c.open(request(), true)
	w.went(0, text, headEvent(id, request(), true))
	w.deliver(1, 1<<30)
	c.must(c.reset(id, 8))
	promised, text, _ := s.promise(id, lists.Of("a", "1"))
	w.went(1, text, promiseEvent(id, promised, lists.Of("a", "1")))
	text, _ = s.head(id, lists.Of("b", "2"), false)
	w.went(1, text, headEvent(id, lists.Of("b", "2"), false))
	text, _ = s.head(promised, lists.Of("c", "3"), false)
	w.went(1, text, headEvent(promised, lists.Of("c", "3"), false))
	for _, stream := range []int64{id, promised} {
		_, text, _ = s.data(stream, long(5000), false)
		w.went(1, text, api.Event{})
	}
	if s.c.Window(0) != 55535 {
		t.Errorf("P21.4: %s: %d", s.history(), s.c.Window(0))
	}
	w.quiet()
	id, text, _ = c.open(request(), true)
	w.went(0, text, headEvent(id, request(), true))
	w.deliver(1, 1<<30)
	all := lists.Of("a", "1", "b", "2", "c", "3")
	text, _ = s.head(id, all, true)
	if len(text) != 12 {
		t.Errorf("the three aren't in the table: %s", shownBytes(text))
	}
	w.went(1, text, headEvent(id, all, true))
	w.quiet()
}
