package pair_test

import (
	"fmt"
	"reflect"
	"slices"
	"strings"
	"testing"

	"herald/api"
	"herald/field"
	"herald/lists"
	"herald/manifest"
	"herald/pair"
	"herald/trace"
)

// witness does moves with a pair into which nothing is forged, and knows of each
// what it must come to, by T1 to T10 alone: from the requests, the site's versions
// and the frames of both logs.
type witness struct {
	t     *testing.T
	p     *pair.Pair
	w     api.World
	done  []string
	tried map[string]int

	asked   []api.Request // by number less one
	waiting []int         // their numbers
	opened  map[int64]int // by stream
	cut     map[int64]bool
	gaveUp  map[int]bool
	bodies  map[int64]string // what was sent of them
	answers int              // that were looked at
	isDone  map[int]bool
	cached  map[int]kept // what must have come out of the cache
	keeper  *keeper
	user    *reader

	host     *reader
	plans    *manifest.Manifest
	log      []api.Serve
	requests map[int64]*api.Request // as they come in
	services map[int64]*service
	isSteady bool // what is pushed with what hangs on the world alone

	body   int   // the bytes of all bodies that were asked with
	most   int   // of the greatest that a page had
	window int64 // the least that was said
}

// service is one of the server's.
type service struct {
	request  api.Request
	response api.Response
	stood    []api.Target // what was promised on the stream
	hasHead  bool
	body     string // what of it was sent
	isEnded  bool
	isReset  bool
}

func newWitness(t *testing.T, w api.World, tried map[string]int) *witness {
	t.Helper()
	p, e := pair.New(w)
	if e != 0 {
		t.Fatalf("P25.1: New: %d", e)
	}
	plans, e := manifest.Of(w.Rules)
	if e != 0 {
		t.Fatal(e)
	}
	x := &witness{
		t: t, p: p, w: w, tried: tried,
		opened: map[int64]int{}, cut: map[int64]bool{}, gaveUp: map[int]bool{}, bodies: map[int64]string{}, isDone: map[int]bool{}, cached: map[int]kept{},
		keeper: newKeeper(w, tried), user: newReader(),
		host: newReader(), plans: plans, requests: map[int64]*api.Request{}, services: map[int64]*service{}, isSteady: true,
		window: min(65535, w.Server.Window, w.Client.Window),
	}
	for _, pg := range w.Pages {
		x.puts(pg)
	}
	x.look()
	return x
}

func (x *witness) fail(format string, a ...any) {
	x.t.Helper()
	from := max(0, len(x.done)-mostShownCalls)
	x.t.Fatalf("%s (call %d: %s)", fmt.Sprintf(format, a...), len(x.done), strings.Join(x.done[from:], ", "))
}

func (x *witness) puts(p api.Page) {
	for _, c := range p.Choices {
		x.most = max(x.most, len(c.Body))
	}
}

// do does a move, and looks at what came of it.
func (x *witness) do(m api.Move) api.Errno {
	x.t.Helper()
	x.done = append(x.done, shownMove(m))
	before := x.p.Server().Version()
	e := x.p.Do(m)
	if e == 0 {
		x.note(m)
	}
	if version := x.p.Server().Version(); version != before && (m.Kind != movePut || e != 0) {
		x.fail("P25.1: version %d", version)
	}
	x.look()
	return e
}

// note is what a move that was taken does by itself.
func (x *witness) note(m api.Move) {
	switch m.Kind {
	case moveAsk:
		x.ask(m.Request)
	case moveCancel:
		n := int(m.N)
		x.gaveUp[n] = true
		x.waiting = slices.DeleteFunc(x.waiting, func(waits int) bool { return waits == n })
		for stream, number := range x.opened {
			if number == n {
				x.cut[stream] = true
			}
		}
	case moveTick:
		x.keeper.tick(m.N)
	case movePut:
		x.puts(m.Page)
		isThere := func(p api.Page) bool { return p.Authority == m.Page.Authority && p.Path == m.Page.Path }
		x.isSteady = x.isSteady && slices.ContainsFunc(x.w.Pages, isThere)
	case moveSet:
		x.window = min(x.window, m.Set.Window)
		x.isSteady = x.isSteady && m.Set.Push == x.w.Client.Push && m.Set.List == x.w.Client.List
	}
}

func (x *witness) ask(r api.Request) {
	x.asked = append(x.asked, r)
	x.body += len(r.Body)
	number := len(x.asked)
	if e, is := x.keeper.claim(r); is {
		x.cached[number] = e
		return
	}
	x.waiting = append(x.waiting, number)
}

// look is T1, T4, T6, T9 and T10 at this moment.
func (x *witness) look() {
	x.t.Helper()
	fresh := x.p.Client().Answers()[x.answers:]
	x.answers += len(fresh)
	for _, a := range fresh {
		if a.Code == refused { // ahead of those that were opened behind it
			x.waiting = slices.DeleteFunc(x.waiting, func(n int) bool { return n == a.Number })
		}
	}
	x.readHost()
	x.readUser()
	for _, a := range fresh {
		x.judge(a)
	}
	x.limits()
	if log := x.p.Server().Log(); len(log)+len(x.log) > 0 && !reflect.DeepEqual(log, x.log) {
		x.fail("T9: the log is %v, want %v", log, x.log)
	}
	for number := range x.cached {
		if !x.isDone[number] {
			x.fail("T10: request %d isn't answered by what was kept", number)
		}
	}
}

// limits is T4, but for the resets.
func (x *witness) limits() {
	x.t.Helper()
	c, k := x.p.Client(), x.keeper
	n, bytes := c.Held()
	if int64(n) > x.w.Conf.Entries || bytes > x.w.Conf.Bytes || int64(c.Pending()) > x.w.Conf.Pending {
		x.fail("T4: %d entries of %d bytes, %d promises under way, by %+v", n, bytes, c.Pending(), x.w.Conf)
	}
	if n != len(k.kept) || bytes != k.bytes() || c.Pending() != len(k.underWay) {
		x.fail("T10: held are %d entries of %d bytes, %d promises under way, want %d, %d, %d", n, bytes, c.Pending(), len(k.kept), k.bytes(), len(k.underWay))
	}
}

// judge is T1 and T10 of an answer.
func (x *witness) judge(a api.Answer) {
	x.t.Helper()
	if a.Number < 1 || a.Number > len(x.asked) || x.isDone[a.Number] {
		x.fail("P23.2: answer %d, again or of none", a.Number)
	}
	x.isDone[a.Number] = true
	r := x.asked[a.Number-1]
	want, isCached := x.cached[a.Number]
	if a.Cached != isCached || isCached && (a.Stream != want.stream || x.keeper.now-want.came > x.w.Conf.Life) {
		x.fail("T10: %s, want what came on stream %d at tick %d", shown(a), want.stream, want.came)
	}
	x.tried[fmt.Sprintf("cached %v code %d", a.Cached, a.Code)]++
	if a.Code != 0 {
		x.judgeFailed(a, r)
		return
	}
	at := slices.IndexFunc(x.log, func(s api.Serve) bool { return s.Stream == a.Stream })
	if at < 0 || x.log[at].Push != a.Cached || !a.Cached && x.opened[a.Stream] != a.Number {
		x.fail("T1: %s came on a stream that wasn't served so: %v", shown(a), x.log)
	}
	version := x.log[at].Version
	if site, e := x.p.Server().Serve(version, r); e != 0 || !lists.SameResponse(a.Response, site) {
		x.fail("T1: %s, want %s", shown(a), lists.ShownResponse(site))
	}
	if newest := x.p.Server().Version(); version == newest {
		x.tried[fmt.Sprintf("cached %v at the newest version", a.Cached)]++
	}
}

// judgeFailed: a request has no response only if it was given up, or its list was
// more than the server takes.
func (x *witness) judgeFailed(a api.Answer, r api.Request) {
	x.t.Helper()
	list, _ := field.WriteRequest(r)
	isLong := field.Size(list) > x.w.Server.List
	if a.Stream != 0 || !lists.SameResponse(a.Response, api.Response{}) || !(a.Code == cancel && x.gaveUp[a.Number] || a.Code == refused && isLong) {
		x.fail("T5: request %d is answered by %s", a.Number, shown(a))
	}
}

// readUser goes through what is new in the client's log.
func (x *witness) readUser() {
	x.t.Helper()
	all, wrong := x.user.next(x.p.Client().Trace())
	if wrong != "" {
		x.fail("the client's log: %s", wrong)
	}
	for _, h := range all {
		switch id, isPushed := h.f.Stream, h.f.Stream%2 == 0; {
		case h.sent && h.f.Type == headers:
			x.opens(h)
		case h.sent && h.f.Type == data:
			body := x.asked[x.opened[id]-1].Body
			x.bodies[id] += h.f.Data
			if sent := x.bodies[id]; !strings.HasPrefix(body, sent) || h.end() != (sent == body) {
				x.fail("T6: of a body other bytes are sent: %s", shown(h))
			}
		case h.sent && h.f.Type == reset:
			x.resets(id, h.f.Code)
		case h.f.Type == promises:
			r, e := field.ReadRequest(h.fields)
			if e != 0 {
				x.fail("T6: a promise of %s", lists.Shown(h.fields))
			}
			x.keeper.promise(h.f.Last, r, x.cut[id])
		case isPushed && h.f.Type == headers:
			x.keeper.head(id, h.fields, h.end())
		case isPushed && h.f.Type == data:
			x.keeper.piece(id, h.f.Data, h.end())
		case isPushed && !h.sent && h.f.Type == reset:
			x.keeper.lose(id)
		}
	}
}

// opens is for a request's head that was sent: the first that waited.
func (x *witness) opens(h heard) {
	x.t.Helper()
	if len(x.waiting) == 0 {
		x.fail("T9: HEADERS of %d, and no request waits", h.f.Stream)
	}
	number := x.waiting[0]
	x.waiting = x.waiting[1:]
	x.opened[h.f.Stream] = number
	r := x.asked[number-1]
	if list, _ := field.WriteRequest(r); !lists.Same(h.fields, list) || h.end() != (r.Body == "") {
		x.fail("T6: of request %d is sent %s, want %s", number, lists.Shown(h.fields), lists.Shown(list))
	}
}

// resets is T4: each that was due once, with its code.
func (x *witness) resets(stream, code int64) {
	x.t.Helper()
	if stream%2 == 1 {
		if !x.cut[stream] || code != cancel {
			x.fail("T4: the client resets stream %d with %d", stream, code)
		}
		return
	}
	want, is := x.keeper.due[stream]
	if !is || want != code {
		x.fail("T4: the client resets the promised %d with %d, want %d", stream, code, want)
	}
	delete(x.keeper.due, stream)
	x.tried[fmt.Sprintf("reset %d", code)]++
}

// readHost goes through what is new in the server's log.
func (x *witness) readHost() {
	x.t.Helper()
	all, wrong := x.host.next(x.p.Server().Trace())
	if wrong != "" {
		x.fail("the server's log: %s", wrong)
	}
	for _, h := range all {
		id := h.f.Stream
		switch {
		case !h.sent && h.f.Type == headers:
			r, e := field.ReadRequest(h.fields)
			if e != 0 {
				x.fail("T6: a request of %s", lists.Shown(h.fields))
			}
			x.requests[id] = &r
			x.comes(id, "", h.end())
		case !h.sent && h.f.Type == data:
			x.comes(id, h.f.Data, h.end())
		case !h.sent && h.f.Type == reset:
			delete(x.requests, id)
			if s := x.services[id]; s != nil {
				s.isReset = true
			}
		case h.f.Type == promises:
			x.promises(h)
		case h.f.Type == headers:
			x.heads(h)
		case h.f.Type == data:
			x.sends(id, h.f.Data, h.end())
		case h.sent && (h.f.Type == reset || h.f.Type == goAway):
			x.fail("T3: the server sends %s", shown(h))
		}
	}
}

// comes is for a piece of a request; with its end it is served.
func (x *witness) comes(id int64, text string, end bool) {
	r := x.requests[id]
	r.Body += text
	if end {
		delete(x.requests, id)
		x.serve(api.Serve{Stream: id}, *r)
	}
}

func (x *witness) serve(line api.Serve, r api.Request) {
	x.t.Helper()
	line.Version = x.p.Server().Version()
	x.log = append(x.log, line)
	response, e := x.p.Server().Serve(line.Version, r)
	if e != 0 || x.services[line.Stream] != nil {
		x.fail("T9: stream %d is served twice, or not at all: %d", line.Stream, e)
	}
	x.services[line.Stream] = &service{request: r, response: response}
}

// at is a stream's service, on which something may still be sent.
func (x *witness) at(id int64) *service {
	x.t.Helper()
	s := x.services[id]
	if s == nil || s.isReset || s.isEnded {
		x.fail("T9: something is sent on stream %d", id)
	}
	return s
}

// promises is T9: what a plan says, in its order, ahead of the head.
func (x *witness) promises(h heard) {
	x.t.Helper()
	s := x.at(h.f.Stream)
	r, e := field.ReadRequest(h.fields)
	if e != 0 || s.hasHead || r.Method != "GET" || r.Scheme != s.request.Scheme || len(r.Fields) > 0 {
		x.fail("T9: on stream %d is promised %s", h.f.Stream, lists.Shown(h.fields))
	}
	s.stood = append(s.stood, api.Target{Authority: r.Authority, Path: r.Path})
	x.serve(api.Serve{Stream: h.f.Last, Push: true}, r)
	plan := x.plan(s.request)
	for _, t := range s.stood {
		at := slices.Index(plan, t)
		if at < 0 {
			x.fail("T9: promised are %v, want %v", s.stood, x.plan(s.request))
		}
		plan = plan[at+1:]
	}
}

// plan is what may be promised with a request.
func (x *witness) plan(r api.Request) []api.Target {
	if r.Method != "GET" {
		return nil
	}
	return x.plans.Plan(api.Target{Authority: r.Authority, Path: r.Path}, 8)
}

// fitting is what of a plan must be promised, where pushing is on.
func (x *witness) fitting(r api.Request) []api.Target {
	var all []api.Target
	for _, t := range x.plan(r) {
		list, _ := field.WriteRequest(api.Request{Method: "GET", Scheme: r.Scheme, Authority: t.Authority, Path: t.Path})
		isThere := func(p api.Page) bool { return p.Authority == t.Authority && p.Path == t.Path }
		if slices.ContainsFunc(x.w.Pages, isThere) && field.Size(list) <= x.w.Client.List && x.w.Client.Push == 1 {
			all = append(all, t)
		}
	}
	return all
}

// heads is for a response's head, of the site's response.
func (x *witness) heads(h heard) {
	x.t.Helper()
	s := x.at(h.f.Stream)
	list, _ := field.WriteResponse(s.response)
	if s.hasHead || !lists.Same(h.fields, list) {
		x.fail("T6: on stream %d is sent %s, want %s", h.f.Stream, lists.Shown(h.fields), lists.Shown(list))
	}
	s.hasHead = true
	if want := x.fitting(s.request); h.f.Stream%2 == 1 && x.isSteady {
		if !slices.Equal(s.stood, want) {
			x.fail("T9: with %s are promised %v, want %v", lists.ShownRequest(s.request), s.stood, want)
		}
		if len(want) > 0 {
			x.tried["whole plans"]++
		}
	}
	x.sends(h.f.Stream, "", h.end())
}

func (x *witness) sends(id int64, text string, end bool) {
	x.t.Helper()
	s := x.at(id)
	s.body += text
	if !s.hasHead || !strings.HasPrefix(s.response.Body, s.body) || end != (s.body == s.response.Body) {
		x.fail("T1: on stream %d are sent %s, want %s", id, lists.ShownText(s.body), lists.ShownText(s.response.Body))
	}
	s.isEnded = end
}

// legal is T3, and P25.2 by the frames.
func (x *witness) legal() {
	x.t.Helper()
	user, host := x.p.Client().Trace(), x.p.Server().Trace()
	for i, l := range [][]api.Entry{host, user} {
		if at, code := trace.Check(l, i == 1); at != -1 || code != 0 {
			x.fail("T3: log %d is refused at %d with %d: %s", i, at, code, shown(l[max(0, at-3):min(len(l), at+1)]))
		}
	}
	if code, dead := x.p.Client().Dead(); dead {
		x.fail("T3: the client is dead of %d", code)
	}
	if code, dead := x.p.Server().Dead(); dead {
		x.fail("T3: the server is dead of %d", code)
	}
	isBeginning(x, framesOf(user, false), framesOf(host, true))
	isBeginning(x, framesOf(host, false), framesOf(user, true))
}

func framesOf(l []api.Entry, sent bool) []api.Frame {
	var all []api.Frame
	for _, e := range l {
		if e.Sent == sent {
			all = append(all, e.F)
		}
	}
	return all
}

func isBeginning(x *witness, got, sent []api.Frame) {
	x.t.Helper()
	if len(got) > len(sent) || len(got) > 0 && !reflect.DeepEqual(got, sent[:len(got)]) {
		x.fail("P25.2: %d frames were got that aren't the first of %d that were sent", len(got), len(sent))
	}
}

// bound is how many rounds T5 says.
func (x *witness) bound() int {
	n := len(x.asked)
	return 40 + 50*n + 2*(x.body+9*n*x.most)/int(x.window)
}

// ends is T5, and what holds when all is still; how many rounds it took.
func (x *witness) ends() int {
	x.t.Helper()
	took, bound := 0, x.bound()
	for ; took < bound && !x.isOver(); took++ {
		x.p.Rounds(1)
	}
	x.done = append(x.done, fmt.Sprintf("Rounds(%d)", took))
	x.look()
	if !x.isOver() || x.answers != len(x.asked) {
		x.fail("T5: behind %d rounds it isn't still: %d of %d are answered", bound, x.answers, len(x.asked))
	}
	x.legal()
	for stream, code := range x.keeper.due {
		x.fail("T4: the promised %d was not reset with %d", stream, code)
	}
	for id, s := range x.services {
		if !s.isEnded && !s.isReset {
			x.fail("T9: what was served on stream %d wasn't sent", id)
		}
	}
	x.windows()
	return took
}

// isOver tells whether all is still, and every request answered.
func (x *witness) isOver() bool {
	return x.p.Still() && x.p.Client().Waiting() == 0 && x.p.Client().Flying() == 0
}

// windows is T8 where all is still.
func (x *witness) windows() {
	x.t.Helper()
	for i, l := range [][]api.Entry{x.p.Server().Trace(), x.p.Client().Trace()} {
		out, in := connWindows(l)
		if out != 65535 || in != 65535 {
			x.fail("T8: the windows of end %d are %d and %d", i, out, in)
		}
	}
}

// connWindows is what an end may send, and what may come, of the connection.
func connWindows(l []api.Entry) (out, in int64) {
	out, in = 65535, 65535
	for _, e := range l {
		switch {
		case e.F.Type == data && e.Sent:
			out -= int64(len(e.F.Data))
		case e.F.Type == data:
			in -= int64(len(e.F.Data))
		case e.F.Type == update && e.F.Stream == 0 && e.Sent:
			in += e.F.Last
		case e.F.Type == update && e.F.Stream == 0:
			out += e.F.Last
		}
	}
	return out, in
}
