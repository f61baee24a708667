package server_test

import (
	"fmt"
	"slices"
	"strings"
	"testing"

	"herald/api"
	"herald/field"
	"herald/lists"
	"herald/server"
	"herald/share"
)

// both are a server and its model, under the same calls: each answer is held
// against the model's, and so is every look behind each call. What is sent is also
// heard as a client would hear it, and held against what was served.
type both struct {
	t    *testing.T
	s    *server.Server
	m    *model
	done []string
	ear  *ear

	looked   int   // entries of the trace
	last     int64 // the greatest stream that the tests' client asked on
	isUsedUp bool  // numbers may be: a unit may be nothing
}

const mostShownCalls = 12

// history is the calls so far, as an error tells them.
func (b *both) history() string {
	from := max(0, len(b.done)-mostShownCalls)
	return fmt.Sprintf("call %d: %s", len(b.done), strings.Join(b.done[from:], ", "))
}

func (b *both) note(format string, a ...any) { b.done = append(b.done, fmt.Sprintf(format, a...)) }

func newBoth(t *testing.T, set api.Set, pages []api.Page, rules []api.Rule) *both {
	t.Helper()
	s, e := server.New(set, pages, rules)
	m, want := newModel(set, pages, rules)
	if e != 0 || want != 0 || s == nil {
		t.Fatalf("P22.1: New(%v, ..): %d, want %d", set, e, want)
	}
	b := &both{t: t, s: s, m: m, ear: newEar(), last: -1}
	b.look()
	return b
}

// begun is a server of the examples' site that has met a client with these params.
func begun(t *testing.T, params ...api.Param) *both {
	t.Helper()
	return begunWith(t, abc(), abcRules(), params...)
}

func begunWith(t *testing.T, pages []api.Page, rules []api.Rule, params ...api.Param) *both {
	t.Helper()
	b := newBoth(t, standard(), pages, rules)
	b.recv(api.Preface + bytes(settingsFrame(params...)))
	b.wantStep(0, settled(), acked())
	b.recv(bytes(ackFrame()))
	b.wantIdle()
	return b
}

func (b *both) recv(chunk string) {
	b.t.Helper()
	b.note("Recv(%s)", lists.ShownText(chunk))
	b.s.Recv(chunk)
	b.m.recv(chunk)
	b.look()
}

// step is what a client hears of a Step.
func (b *both) step(pick int) []api.Event {
	b.t.Helper()
	b.note("Step(%d)", pick)
	ready := b.s.Ready()
	text, want := b.s.Step(pick), b.m.step(pick)
	if text != want {
		b.t.Fatalf("P22.1: %s: %s, want %s", b.history(), shownBytes(text), shownBytes(want))
	}
	events := b.hears(text)
	b.holdUnit(events, ready, pick)
	b.look()
	return events
}

// hears reads what was sent, in frames that the client takes.
func (b *both) hears(text string) []api.Event {
	b.t.Helper()
	events, wrong := b.ear.hear(text, b.s.Theirs().Frame)
	if wrong != "" {
		b.t.Fatalf("P22.1: %s: %s", b.history(), wrong)
	}
	return events
}

// holdUnit wants control, and behind it one unit of the stream that was to be picked.
func (b *both) holdUnit(events []api.Event, ready []int64, pick int) {
	b.t.Helper()
	units := slices.Clone(events)
	units = slices.DeleteFunc(units, func(e api.Event) bool { return !isUnit(e) })
	stream, is := share.Pick(ready, pick)
	switch {
	case len(units) > 1, len(units) == 1 && !isUnit(events[len(events)-1]):
		b.t.Fatalf("P22.1: %s: more than one unit, or control behind it: %s", b.history(), shownEvents(events))
	case len(units) == 0 && is && !b.isUsedUp:
		b.t.Fatalf("P22.5: %s: no unit, though %v were ready", b.history(), ready)
	case len(units) == 1 && (!is || units[0].Stream != stream):
		b.t.Fatalf("P22.1: %s: ready were %v, sent was %s", b.history(), ready, shownEvents(units))
	}
}

func isUnit(e api.Event) bool {
	return e.Kind == api.EventHead || e.Kind == api.EventData || e.Kind == api.EventPromise
}

// wantStep wants just these to be heard of a Step.
func (b *both) wantStep(pick int, want ...api.Event) {
	b.t.Helper()
	if events := b.step(pick); !sameEvents(events, want) {
		b.t.Fatalf("P22.1: %s: %s, want %s", b.history(), shownEvents(events), shownEvents(want))
	}
}

func (b *both) put(p api.Page) (int64, api.Errno) {
	b.t.Helper()
	b.note("Put(%s%s)", lists.ShownText(p.Authority), lists.ShownText(p.Path))
	version, e := b.s.Put(p)
	want, wantE := b.m.put(p)
	if version != want || e != wantE {
		b.t.Fatalf("P22.1: %s: %d, %d, want %d, %d", b.history(), version, e, want, wantE)
	}
	b.look()
	return version, e
}

func (b *both) mustPut(p api.Page) {
	b.t.Helper()
	if version, e := b.put(p); e != api.OK || version < 2 {
		b.t.Fatalf("P22.1: %s: %d, %d", b.history(), version, e)
	}
}

func (b *both) settings(set api.Set) api.Errno {
	b.t.Helper()
	b.note("Settings(%v)", set)
	e, want := b.s.Settings(set), b.m.settings(set)
	if e != want {
		b.t.Fatalf("P22.1: %s: %d, want %d", b.history(), e, want)
	}
	b.look()
	return e
}

// next is the client's next stream.
func (b *both) next() int64 {
	b.last += 2
	return b.last
}

// ask sends a request that is whole in its head.
func (b *both) ask(method, path string, more ...api.Field) int64 {
	b.t.Helper()
	id := b.next()
	b.note("%s %s on %d", method, lists.ShownText(path), id)
	b.recv(bytes(headersFrame(id, request(method, path, more...), true)))
	return id
}

// begin sends a request's head alone.
func (b *both) begin(method, path string, more ...api.Field) int64 {
	b.t.Helper()
	id := b.next()
	b.note("%s %s on %d, more to come", method, lists.ShownText(path), id)
	b.recv(bytes(headersFrame(id, request(method, path, more...), false)))
	return id
}

func (b *both) wantReady(want ...int64) {
	b.t.Helper()
	if ready := b.s.Ready(); !slices.Equal(ready, want) {
		b.t.Fatalf("P22.1: %s: Ready() = %v, want %v", b.history(), ready, want)
	}
}

func (b *both) wantLog(want ...api.Serve) {
	b.t.Helper()
	if log := b.s.Log(); !slices.Equal(log, want) {
		b.t.Fatalf("P22.2: %s: Log() = %v, want %v", b.history(), log, want)
	}
}

// wantIdle wants nothing to be left to send.
func (b *both) wantIdle() {
	b.t.Helper()
	if !b.s.Idle() {
		b.t.Fatalf("P22.1: %s: isn't idle", b.history())
	}
	b.wantReady()
	b.wantStep(0)
}

// wantBusy wants work, or control, to be left.
func (b *both) wantBusy() {
	b.t.Helper()
	if b.s.Idle() {
		b.t.Fatalf("P22.1: %s: is idle", b.history())
	}
}

// look holds all looks against the model's.
func (b *both) look() {
	b.t.Helper()
	code, dead := b.s.Dead()
	if wantCode, want := b.m.c.Dead(); dead != want || code != wantCode {
		b.t.Fatalf("P22.1: %s: Dead() = %d, %v, want %d, %v", b.history(), code, dead, wantCode, want)
	}
	if theirs := b.s.Theirs(); theirs != b.m.c.Theirs() {
		b.t.Fatalf("P22.1: %s: Theirs() = %v, want %v", b.history(), theirs, b.m.c.Theirs())
	}
	if version := b.s.Version(); version != b.m.version() {
		b.t.Fatalf("P22.1: %s: Version() = %d, want %d", b.history(), version, b.m.version())
	}
	if log := b.s.Log(); !slices.Equal(log, b.m.served) {
		b.t.Fatalf("P22.2: %s: Log() = %v, want %v", b.history(), log, b.m.served)
	}
	if ready, want := b.s.Ready(), b.m.ready(); !slices.Equal(ready, want) {
		b.t.Fatalf("P22.1: %s: Ready() = %v, want %v", b.history(), ready, want)
	}
	if idle := b.s.Idle(); idle != b.m.idle() {
		b.t.Fatalf("P22.1: %s: Idle() = %v", b.history(), idle)
	}
	b.lookAtTrace()
}

func (b *both) lookAtTrace() {
	b.t.Helper()
	trace, want := b.s.Trace(), b.m.c.Log()
	from := min(b.looked, len(trace), len(want))
	if !slices.EqualFunc(trace[from:], want[from:], sameEntry) {
		b.t.Fatalf("P22.1: %s: Trace() has %d entries, want %d, or others", b.history(), len(trace), len(want))
	}
	b.looked = len(trace)
}

// whole holds all looks, the whole trace, what the site answers at each version, and
// all that was heard.
func (b *both) whole() {
	b.t.Helper()
	b.looked = 0
	b.look()
	requests := []api.Request{{Method: "GET", Authority: "x", Path: "/none"}, {}}
	for _, p := range b.m.versions[len(b.m.versions)-1] {
		for _, method := range []string{"GET", "HEAD", "POST"} {
			requests = append(requests, api.Request{Method: method, Scheme: "https", Authority: p.Authority, Path: p.Path})
		}
	}
	for _, version := range []int64{least, -1, 0, 1, 2, b.m.version(), b.m.version() + 1, greatest} {
		for _, r := range requests {
			a, e := b.s.Serve(version, r)
			if want, wantE := b.m.serve(version, r); e != wantE || !lists.SameResponse(a, want) {
				b.t.Fatalf("P22.1: %s: Serve(%d, %s) = %s, %d", b.history(), version, lists.ShownRequest(r), lists.ShownResponse(a), e)
			}
		}
	}
	b.holdHeard()
}

// holdHeard wants what was heard on each stream to be what was served there, as far
// as it came: of each line of the log, and of no stream beside them.
func (b *both) holdHeard() {
	b.t.Helper()
	served := map[int64]bool{}
	for _, line := range b.s.Log() {
		if served[line.Stream] {
			b.t.Fatalf("P22.2: %s: stream %d was served twice", b.history(), line.Stream)
		}
		served[line.Stream] = true
		r := b.m.asked[line.Stream]
		h := b.ear.streams[line.Stream]
		if h == nil {
			h = &heard{}
		}
		if line.Push {
			r, _ = field.ReadRequest(h.promise)
		}
		a, e := b.s.Serve(line.Version, r)
		if e != api.OK || line.Push != (h.promise != nil) || line.Push != (line.Stream%2 == 0) {
			b.t.Fatalf("P22.2: %s: the line %v, %d", b.history(), line, e)
		}
		b.holdResponse(line.Stream, h, a)
		if !line.Push {
			b.holdPromises(line.Stream, h, r)
		}
	}
	for id, h := range b.ear.streams {
		if !served[id] && !h.isReset {
			b.t.Fatalf("P22.2: %s: stream %d was heard of, and not served", b.history(), id)
		}
	}
}

func (b *both) holdResponse(id int64, h *heard, a api.Response) {
	b.t.Helper()
	head := lists.Joined(lists.Of(":status", fmt.Sprint(a.Status)), a.Fields...)
	right := h.head == nil && h.body == "" && !h.isEnded
	if h.head != nil {
		right = lists.Same(h.head, head) && strings.HasPrefix(a.Body, h.body) && h.isEnded == (a.Body == h.body)
	}
	if !right {
		b.t.Fatalf("P22.3: %s: on stream %d came %s, %s, end %v, served was %s", b.history(), id, lists.Shown(h.head), lists.ShownText(h.body), h.isEnded, lists.ShownResponse(a))
	}
	if !b.s.Idle() || h.isEnded || h.isReset || b.m.c.State(id) == closed {
		return
	}
	if _, dead := b.s.Dead(); !dead {
		b.t.Fatalf("P22.5: %s: it is idle, and stream %d hasn't come to its end", b.history(), id)
	}
}

// holdPromises wants a stream's promises to be some of its plan, in order, each once.
func (b *both) holdPromises(id int64, h *heard, r api.Request) {
	b.t.Helper()
	var plan []api.Target
	if r.Method == "GET" {
		plan = b.m.plan(api.Target{Authority: r.Authority, Path: r.Path})
	}
	for _, promised := range h.promises {
		p, e := field.ReadRequest(b.ear.streams[promised].promise)
		at := slices.Index(plan, api.Target{Authority: p.Authority, Path: p.Path})
		if e != api.OK || at < 0 || p.Method != "GET" || p.Scheme != r.Scheme || len(p.Fields) > 0 {
			b.t.Fatalf("P22.4: %s: on stream %d was promised %s", b.history(), id, lists.ShownRequest(p))
		}
		plan = plan[at+1:]
	}
}
