package client_test

import (
	"fmt"
	"slices"
	"strings"
	"testing"

	"herald/api"
	"herald/client"
	"herald/field"
	"herald/lists"
	"herald/pack"
	"herald/vary"
)

// both are a client and its model, under the same calls: each answer is held against
// the model's, and so is every look behind each call. What is sent is also heard as a
// server would hear it, and cached answers are held against what came.
type both struct {
	t    *testing.T
	c    *client.Client
	m    *model
	done []string
	ear  *ear

	looked   int             // entries of the trace
	seen     int             // answers that a test has looked at
	promised int64           // the greatest stream that the tests' server promised
	ended    map[int64]int64 // when the promised streams came to their end
	asked    map[int]asked
}

// asked is a request, and when it was.
type asked struct {
	r    api.Request
	tick int64
}

const mostShownCalls = 12

// history is the calls so far, as an error tells them.
func (b *both) history() string {
	from := max(0, len(b.done)-mostShownCalls)
	return fmt.Sprintf("call %d: %s", len(b.done), strings.Join(b.done[from:], ", "))
}

func (b *both) note(format string, a ...any) { b.done = append(b.done, fmt.Sprintf(format, a...)) }

// usual is the conf of the chapter's examples.
func usual() api.Conf { return api.Conf{Entries: 4, Bytes: 1000, Life: 10, Pending: 4} }

func newBoth(t *testing.T, set api.Set, conf api.Conf, origins ...string) *both {
	t.Helper()
	c, e := client.New(set, conf, origins)
	m, want := newModel(set, conf, origins)
	if e != 0 || want != 0 || c == nil {
		t.Fatalf("P23.1: New(%v, %v, %q): %d, want %d", set, conf, origins, e, want)
	}
	b := wrapped(t, c, m)
	b.look()
	return b
}

func wrapped(t *testing.T, c *client.Client, m *model) *both {
	return &both{t: t, c: c, m: m, ear: newEar(), ended: map[int64]int64{}, asked: map[int]asked{}}
}

// begun is a client of the examples that has met a server with these params.
func begun(t *testing.T, params ...api.Param) *both {
	t.Helper()
	return begunWith(t, usual(), params...)
}

func begunWith(t *testing.T, conf api.Conf, params ...api.Param) *both {
	t.Helper()
	b := newBoth(t, standard(), conf, "https://x")
	b.meets(params...)
	return b
}

func (b *both) meets(params ...api.Param) {
	b.t.Helper()
	b.wantStep(0, settled())
	b.recv(bytes(settingsFrame(params...), ackFrame()))
	b.wantStep(0, acked())
	b.wantIdle()
}

// flown is one whose first request, for /a, is under way.
func flown(t *testing.T, params ...api.Param) *both {
	t.Helper()
	b := begun(t, params...)
	if id := b.fly(get("/a")); id != 1 {
		t.Fatalf("the first stream is %d", id)
	}
	return b
}

func (b *both) recv(chunk string) {
	b.t.Helper()
	b.note("Recv(%s)", lists.ShownText(chunk))
	b.c.Recv(chunk)
	b.m.recv(chunk)
	b.look()
}

// step is what a server hears of a Step.
func (b *both) step(pick int) []api.Event {
	b.t.Helper()
	b.note("Step(%d)", pick)
	text, want := b.c.Step(pick), b.m.step(pick)
	if text != want {
		b.t.Fatalf("P23.1: %s: %s, want %s", b.history(), shownBytes(text), shownBytes(want))
	}
	events, wrong := b.ear.hear(text, b.c.Theirs().Frame)
	if wrong != "" {
		b.t.Fatalf("P23.1: %s: %s", b.history(), wrong)
	}
	units := 0
	for i, e := range events {
		if e.Kind == api.EventHead || e.Kind == api.EventData {
			units += 1 + len(events) - 1 - i
		}
	}
	if units > 1 {
		b.t.Fatalf("P23.1: %s: more than one unit, or control behind it: %s", b.history(), shownEvents(events))
	}
	b.look()
	return events
}

// wantStep wants just these to be heard of a Step.
func (b *both) wantStep(pick int, want ...api.Event) {
	b.t.Helper()
	if events := b.step(pick); !sameEvents(events, want) {
		b.t.Fatalf("P23.1: %s: %s, want %s", b.history(), shownEvents(events), shownEvents(want))
	}
}

func (b *both) ask(r api.Request) (int, api.Errno) {
	b.t.Helper()
	b.note("Ask(%s)", lists.ShownRequest(r))
	n, e := b.c.Ask(r)
	want, wantE := b.m.ask(r)
	if n != want || e != wantE {
		b.t.Fatalf("P23.1: %s: %d, %d, want %d, %d", b.history(), n, e, want, wantE)
	}
	if e == api.OK {
		r.Fields = slices.Clone(r.Fields)
		b.asked[n] = asked{r, b.c.Now()}
	}
	b.look()
	return n, e
}

// asks wants a request to be taken.
func (b *both) asks(r api.Request) int {
	b.t.Helper()
	n, e := b.ask(r)
	if e != api.OK || n < 1 {
		b.t.Fatalf("P23.1: %s: %d, %d", b.history(), n, e)
	}
	return n
}

// wantWaits wants a request to be taken, and to wait.
func (b *both) wantWaits(r api.Request) int {
	b.t.Helper()
	before := b.c.Waiting()
	n := b.asks(r)
	if b.c.Waiting() != before+1 {
		b.t.Fatalf("P23.1: %s: it doesn't wait", b.history())
	}
	b.wantAnswers()
	return n
}

// fly is the stream of a request that is asked and opened, with all of its body.
func (b *both) fly(r api.Request) int64 {
	b.t.Helper()
	n := b.wantWaits(r)
	events := b.step(0)
	last := len(events) - 1
	if last < 0 || events[last].Kind != api.EventHead {
		b.t.Fatalf("P23.1: %s: request %d isn't opened: %s", b.history(), n, shownEvents(events))
	}
	return events[last].Stream
}

func (b *both) cancel(number int) api.Errno {
	b.t.Helper()
	b.note("Cancel(%d)", number)
	e, want := b.c.Cancel(number), b.m.cancels(number)
	if e != want {
		b.t.Fatalf("P23.1: %s: %d, want %d", b.history(), e, want)
	}
	b.look()
	return e
}

func (b *both) tick(now int64) api.Errno {
	b.t.Helper()
	b.note("Tick(%d)", now)
	e, want := b.c.Tick(now), b.m.ticks(now)
	if e != want {
		b.t.Fatalf("P23.1: %s: %d, want %d", b.history(), e, want)
	}
	b.look()
	return e
}

func (b *both) settings(set api.Set) api.Errno {
	b.t.Helper()
	b.note("Settings(%v)", set)
	e, want := b.c.Settings(set), b.m.c.Settings(set)
	if e != want {
		b.t.Fatalf("P23.1: %s: %d, want %d", b.history(), e, want)
	}
	b.look()
	return e
}

// promise lets one come, on a stream of ours.
func (b *both) promise(on int64, l []api.Field) int64 {
	b.t.Helper()
	b.promised += 2
	b.note("%s is promised on %d: %d", lists.Shown(l), on, b.promised)
	b.recv(bytes(promiseFrame(on, b.promised, l)))
	return b.promised
}

// push lets a promise come whole: GET of x.
func (b *both) push(on int64, path, body string) int64 {
	b.t.Helper()
	id := b.promise(on, listOf(get(path)))
	b.reply(id, body)
	return id
}

// reply lets a response come: 200, without any fields.
func (b *both) reply(id int64, body string) {
	b.t.Helper()
	if body == "" {
		b.recv(bytes(headersFrame(id, status("200"), true)))
		return
	}
	b.recv(bytes(headersFrame(id, status("200"), false)))
	for len(body) > 16384 {
		b.recv(bytes(dataFrame(id, body[:16384], false)))
		body = body[16384:]
	}
	b.recv(bytes(dataFrame(id, body, true)))
}

// wantAnswers wants just these behind those that were looked at already.
func (b *both) wantAnswers(want ...api.Answer) {
	b.t.Helper()
	all := b.c.Answers()
	if len(all) < b.seen || !sameAnswers(all[b.seen:], want) {
		b.t.Fatalf("P23.2: %s: behind %d came %s, want %s", b.history(), b.seen, shownAnswers(all[min(b.seen, len(all)):]), shownAnswers(want))
	}
	b.seen = len(all)
}

// wantCounts wants so many requests that wait, that are under way, and promises.
func (b *both) wantCounts(waiting, flying, pending int) {
	b.t.Helper()
	if w, f, p := b.c.Waiting(), b.c.Flying(), b.c.Pending(); w != waiting || f != flying || p != pending {
		b.t.Fatalf("P23.1: %s: %d wait, %d fly, %d pend, want %d, %d, %d", b.history(), w, f, p, waiting, flying, pending)
	}
}

func (b *both) wantHeld(entries int, bytes int64) {
	b.t.Helper()
	if n, size := b.c.Held(); n != entries || size != bytes {
		b.t.Fatalf("P23.4: %s: Held() = %d, %d, want %d, %d", b.history(), n, size, entries, bytes)
	}
}

// wantIdle wants nothing to be left to send.
func (b *both) wantIdle() {
	b.t.Helper()
	if !b.c.Idle() {
		b.t.Fatalf("P23.1: %s: isn't idle", b.history())
	}
	b.wantStep(0)
}

// wantBusy wants something to be left to send.
func (b *both) wantBusy() {
	b.t.Helper()
	if b.c.Idle() {
		b.t.Fatalf("P23.1: %s: is idle", b.history())
	}
}

func (b *both) wantAlive() {
	b.t.Helper()
	if code, dead := b.c.Dead(); dead {
		b.t.Fatalf("P23.1: %s: dead of %d", b.history(), code)
	}
}

// look holds all looks against the model's.
func (b *both) look() {
	b.t.Helper()
	code, dead := b.c.Dead()
	if wantCode, want := b.m.c.Dead(); dead != want || code != wantCode {
		b.t.Fatalf("P23.1: %s: Dead() = %d, %v, want %d, %v", b.history(), code, dead, wantCode, want)
	}
	if theirs := b.c.Theirs(); theirs != b.m.c.Theirs() {
		b.t.Fatalf("P23.1: %s: Theirs() = %v, want %v", b.history(), theirs, b.m.c.Theirs())
	}
	if now := b.c.Now(); now != b.m.now {
		b.t.Fatalf("P23.1: %s: Now() = %d, want %d", b.history(), now, b.m.now)
	}
	b.wantCounts(len(b.m.waiting()), len(b.m.flying()), len(b.m.pending()))
	b.wantHeld(len(b.m.held()), b.m.heldBytes())
	if idle := b.c.Idle(); idle != b.m.idle() {
		b.t.Fatalf("P23.1: %s: Idle() = %v", b.history(), idle)
	}
	if answers := b.c.Answers(); !sameAnswers(answers, b.m.answers) {
		b.t.Fatalf("P23.2: %s: Answers() = %s, want %s", b.history(), shownAnswers(answers), shownAnswers(b.m.answers))
	}
	b.lookAtTrace()
}

func (b *both) lookAtTrace() {
	b.t.Helper()
	trace, want := b.c.Trace(), b.m.c.Log()
	from := min(b.looked, len(trace), len(want))
	if !slices.EqualFunc(trace[from:], want[from:], sameEntry) {
		b.t.Fatalf("P23.1: %s: Trace() has %d entries, want %d, or others", b.history(), len(trace), len(want))
	}
	for _, x := range trace[from:] {
		f := x.F
		if _, was := b.ended[f.Stream]; !was && !x.Sent && f.Stream%2 == 0 && f.Type <= api.FrameHeaders && f.Flags&api.EndStream > 0 {
			b.ended[f.Stream] = b.c.Now()
		}
	}
	b.looked = len(trace)
}

// whole holds all looks, the whole trace, all that was heard, and all answers.
func (b *both) whole() {
	b.t.Helper()
	b.looked = 0
	b.look()
	b.holdHeard()
	b.holdAnswers()
}

// holdHeard wants what was heard on each stream to be its request, as far as it was
// sent, and the streams' order to be that of the numbers.
func (b *both) holdHeard() {
	b.t.Helper()
	last := int64(0)
	for i, q := range b.m.requests {
		if q.stream == 0 {
			continue
		}
		h := b.ear.streams[q.stream]
		r := b.asked[i+1].r
		if h == nil || q.stream <= last || !lists.Same(h.head, listOf(r)) || !strings.HasPrefix(r.Body, h.body) || h.isEnded != (h.body == r.Body) {
			b.t.Fatalf("P23.1: %s: on stream %d came %+v, of %s", b.history(), q.stream, h, lists.ShownRequest(r))
		}
		last = q.stream
	}
	for id, h := range b.ear.streams {
		if id > last && id%2 == 1 || id%2 == 0 && h.head != nil {
			b.t.Fatalf("P23.1: %s: stream %d was heard of", b.history(), id)
		}
	}
}

// holdAnswers wants each request to be answered at most once, in a dead client once,
// and cached answers to be what came on promised streams.
func (b *both) holdAnswers() {
	b.t.Helper()
	answered, given := map[int]bool{}, map[int64]bool{}
	came := pushesOf(b.c.Trace())
	for _, a := range b.c.Answers() {
		if answered[a.Number] || a.Number < 1 || a.Number > len(b.asked) {
			b.t.Fatalf("P23.2: %s: request %d is answered twice, or isn't one", b.history(), a.Number)
		}
		answered[a.Number] = true
		if a.Stream == 0 && (a.Cached || !lists.SameResponse(a.Response, api.Response{})) || a.Stream > 0 && a.Code != 0 || a.Cached != (a.Stream > 0 && a.Stream%2 == 0) {
			b.t.Fatalf("P23.2: %s: %s", b.history(), shownAnswers([]api.Answer{a}))
		}
		if a.Cached {
			if given[a.Stream] {
				b.t.Fatalf("P23.3: %s: what came on %d answers twice", b.history(), a.Stream)
			}
			given[a.Stream] = true
			b.holdCached(a, came[a.Stream])
		}
	}
	if _, dead := b.c.Dead(); dead && len(answered) != len(b.asked) || len(answered)+b.c.Waiting()+b.c.Flying() != len(b.asked) {
		b.t.Fatalf("P23.2: %s: %d of %d are answered", b.history(), len(answered), len(b.asked))
	}
}

func (b *both) holdCached(a api.Answer, p *pushed) {
	b.t.Helper()
	if p == nil || !p.isWhole {
		b.t.Fatalf("P23.3: %s: %s didn't come whole", b.history(), shownAnswers([]api.Answer{a}))
	}
	r, e := field.ReadRequest(p.promise)
	response, e2 := field.ReadResponse(p.head)
	response.Body = p.body
	names, star := vary.Names(response)
	q := b.asked[a.Number]
	switch {
	case e != 0, e2 != 0, !lists.SameResponse(response, a.Response), star:
		b.t.Fatalf("P23.3: %s: came was %s", b.history(), lists.ShownResponse(response))
	case r.Method != "GET" && r.Method != "HEAD", !b.m.isOurs(r.Scheme, r.Authority), q.r.Body != "", !vary.Match(r, q.r, names):
		b.t.Fatalf("P23.3: %s: promised was %s, asked %s", b.history(), lists.ShownRequest(r), lists.ShownRequest(q.r))
	case q.tick > b.ended[a.Stream]+b.m.conf.Life:
		b.t.Fatalf("P23.3: %s: %d is answered too late", b.history(), a.Number)
	}
}

// pushed is what a trace tells of a promised stream.
type pushed struct {
	promise, head []api.Field
	body          string
	isWhole       bool
}

// pushesOf reads the frames that came, knowing no states.
func pushesOf(trace []api.Entry) map[int64]*pushed {
	all := map[int64]*pushed{}
	dec := pack.NewDecoder()
	var head api.Frame
	block := ""
	for _, x := range trace {
		f := x.F
		if x.Sent {
			continue
		}
		switch f.Type {
		case api.FrameHeaders, api.FramePromise:
			head, block = f, f.Data
		case api.FrameContinuation:
			block += f.Data
		case api.FrameData:
			if p := all[f.Stream]; p != nil && !p.isWhole {
				p.body += f.Data
				p.isWhole = f.Flags&api.EndStream > 0
			}
			continue
		default:
			continue
		}
		if f.Flags&api.EndHeaders == 0 {
			continue
		}
		l, _ := dec.Decode(block, api.MaxInt)
		if head.Type == api.FramePromise {
			all[head.Last] = &pushed{promise: l}
		} else if p := all[head.Stream]; p != nil && p.head == nil {
			p.head, p.isWhole = l, head.Flags&api.EndStream > 0
		}
	}
	return all
}
