package pair_test

import (
	"fmt"
	"reflect"
	"strings"
	"testing"

	"herald/api"
	"herald/client"
	"herald/lists"
	"herald/pair"
	"herald/server"
)

// ends is what can be looked at, a pair or a model.
type ends interface {
	Server() *server.Server
	Client() *client.Client
	ToServer() string
	ToClient() string
	Still() bool
}

// seen is all that ends tell at one moment.
type seen struct {
	ToServer, ToClient     string
	Still                  bool
	Answers                []api.Answer
	Waiting, Flying        int
	Pending, Held          int
	Bytes, Now             int64
	Version                int64
	Log                    []api.Serve
	Ready                  []int64
	Idle, Dead             [2]bool // the server's, the client's
	Codes                  [2]int64
	Theirs                 [2]api.Set
	ServerTrace, UserTrace []api.Entry
}

func look(x ends) seen {
	s, c := x.Server(), x.Client()
	now := seen{
		ToServer: x.ToServer(), ToClient: x.ToClient(), Still: x.Still(),
		Answers: c.Answers(), Waiting: c.Waiting(), Flying: c.Flying(), Pending: c.Pending(), Now: c.Now(),
		Version: s.Version(), Log: s.Log(), Ready: s.Ready(),
		Idle: [2]bool{s.Idle(), c.Idle()}, Theirs: [2]api.Set{s.Theirs(), c.Theirs()},
		ServerTrace: s.Trace(), UserTrace: c.Trace(),
	}
	now.Held, now.Bytes = c.Held()
	now.Codes[0], now.Dead[0] = s.Dead()
	now.Codes[1], now.Dead[1] = c.Dead()
	return now
}

// unlike is the first that two moments tell otherwise; "": there is nothing.
func unlike(a, b seen) string {
	x, y := reflect.ValueOf(a), reflect.ValueOf(b)
	for i := range x.NumField() {
		p, q := x.Field(i), y.Field(i)
		if p.Kind() == reflect.Slice && p.Len() == 0 && q.Len() == 0 {
			continue
		}
		if !reflect.DeepEqual(p.Interface(), q.Interface()) {
			return fmt.Sprintf("%s is %s, want %s", x.Type().Field(i).Name, shown(p.Interface()), shown(q.Interface()))
		}
	}
	return ""
}

const mostShown = 600

func shown(x any) string {
	s := fmt.Sprintf("%+v", x)
	if text, is := x.(string); is {
		s = fmt.Sprintf("% x", text)
	}
	if len(s) > mostShown {
		return fmt.Sprintf("%s .. %s (%d bytes)", s[:mostShown/2], s[len(s)-mostShown/2:], len(s))
	}
	return s
}

var moveNames = []string{"?", "Ask", "Cancel", "Server", "Client", "ToServer", "ToClient", "Tick", "Put", "Set", "Forge"}

func shownMove(m api.Move) string {
	name := fmt.Sprint("kind ", m.Kind)
	if m.Kind > 0 && m.Kind < len(moveNames) {
		name = moveNames[m.Kind]
	}
	switch m.Kind {
	case moveAsk:
		return name + lists.ShownRequest(m.Request)
	case movePut:
		return fmt.Sprintf("%s %s%s %s", name, m.Page.Authority, m.Page.Path, shown(m.Page.Choices))
	case moveSet:
		return fmt.Sprintf("%s %v", name, m.Set)
	case moveForge:
		return fmt.Sprintf("%s %d %s", name, m.N, lists.ShownText(m.Bytes))
	}
	return fmt.Sprintf("%s %d", name, m.N)
}

// both are a pair and its model, under the same calls: each answer is held against
// the model's, and so is every look behind each call.
type both struct {
	t    *testing.T
	p    *pair.Pair
	m    *model
	last seen
	done []string
}

const mostShownCalls = 14

// history is the calls so far, as an error tells them.
func (b *both) history() string {
	from := max(0, len(b.done)-mostShownCalls)
	return fmt.Sprintf("call %d: %s", len(b.done), strings.Join(b.done[from:], ", "))
}

func newBoth(t *testing.T, w api.World) *both {
	t.Helper()
	p, e := pair.New(w)
	m, want := newModel(w)
	if e != 0 || want != 0 || p == nil {
		t.Fatalf("P25.1: New: %d, want %d", e, want)
	}
	b := &both{t: t, p: p, m: m}
	b.look()
	return b
}

// begun is that of the examples behind three rounds.
func begun(t *testing.T) *both {
	t.Helper()
	return begunWith(t, world())
}

func begunWith(t *testing.T, w api.World) *both {
	t.Helper()
	b := newBoth(t, w)
	b.rounds(3)
	b.wantStill(true)
	return b
}

// look holds every look against the model's.
func (b *both) look() {
	b.t.Helper()
	now := look(b.p)
	if wrong := unlike(now, look(b.m)); wrong != "" {
		b.t.Fatalf("P25.1: %s: %s", b.history(), wrong)
	}
	b.last = now
}

// do does a move, and wants the model's answer; a refused one changes nothing.
func (b *both) do(m api.Move) api.Errno {
	b.t.Helper()
	b.done = append(b.done, shownMove(m))
	before := b.last
	e, want := b.p.Do(m), b.m.do(m)
	if e != want {
		b.t.Fatalf("P25.1: %s: %d, want %d", b.history(), e, want)
	}
	b.look()
	if wrong := unlike(b.last, before); e != 0 && wrong != "" {
		b.t.Fatalf("P25.1: %s: it is refused with %d, and %s", b.history(), e, wrong)
	}
	return e
}

// all does moves that are taken.
func (b *both) all(moves ...api.Move) {
	b.t.Helper()
	for _, m := range moves {
		if e := b.do(m); e != 0 {
			b.t.Fatalf("P25.1: %s: %d", b.history(), e)
		}
	}
}

// wantRefused does a move that is refused.
func (b *both) wantRefused(m api.Move, want api.Errno) {
	b.t.Helper()
	if e := b.do(m); e != want || want == 0 {
		b.t.Fatalf("P25.1: %s: %d, want %d", b.history(), e, want)
	}
}

func (b *both) rounds(n int) {
	b.t.Helper()
	b.done = append(b.done, fmt.Sprintf("Rounds(%d)", n))
	b.p.Rounds(n)
	b.m.rounds(n)
	b.look()
}

func (b *both) wantStill(want bool) {
	b.t.Helper()
	if b.last.Still != want {
		b.t.Fatalf("P25.1: %s: Still is %v", b.history(), b.last.Still)
	}
}

// wantPipes wants so many bytes in each.
func (b *both) wantPipes(toServer, toClient int) {
	b.t.Helper()
	if len(b.last.ToServer) != toServer || len(b.last.ToClient) != toClient {
		b.t.Fatalf("P25.1: %s: %d and %d bytes lie in the pipes, want %d and %d", b.history(), len(b.last.ToServer), len(b.last.ToClient), toServer, toClient)
	}
}

// answer is a response with a body and its length alone.
func answer(number int, cached bool, stream int64, body string) api.Answer {
	return api.Answer{Number: number, Cached: cached, Stream: stream, Response: api.Response{Status: 200, Fields: lists.Of("content-length", fmt.Sprint(len(body))), Body: body}}
}

func failed(number int, code int64) api.Answer { return api.Answer{Number: number, Code: code} }

func sameAnswer(a, b api.Answer) bool {
	return a.Number == b.Number && a.Cached == b.Cached && a.Stream == b.Stream && a.Code == b.Code && lists.SameResponse(a.Response, b.Response)
}

func (b *both) wantAnswers(want ...api.Answer) {
	b.t.Helper()
	wantAnswers(b.t, b.history(), b.p, want...)
}

func wantAnswers(t *testing.T, where string, x ends, want ...api.Answer) {
	t.Helper()
	got := x.Client().Answers()
	if len(got) != len(want) {
		t.Fatalf("P25.1: %s: answers %s, want %s", where, shown(got), shown(want))
	}
	for i := range want {
		if !sameAnswer(got[i], want[i]) {
			t.Fatalf("P25.1: %s: answer %s, want %s", where, shown(got[i]), shown(want[i]))
		}
	}
}

func (b *both) wantLog(want ...api.Serve) {
	b.t.Helper()
	if got := b.p.Server().Log(); len(got)+len(want) > 0 && !reflect.DeepEqual(got, want) {
		b.t.Fatalf("P25.1: %s: the log is %v, want %v", b.history(), got, want)
	}
}

// wantHeld wants so many entries and bytes in the cache, and promises under way.
func (b *both) wantHeld(entries int, bytes int64, pending int) {
	b.t.Helper()
	if b.last.Held != entries || b.last.Bytes != bytes || b.last.Pending != pending {
		b.t.Fatalf("P25.1: %s: held are %d entries of %d bytes, %d promises under way; want %d, %d, %d", b.history(), b.last.Held, b.last.Bytes, b.last.Pending, entries, bytes, pending)
	}
}

// wantDead wants the codes of which the server and the client died, 0: it lives.
func (b *both) wantDead(server, client int64) {
	b.t.Helper()
	for i, code := range []int64{server, client} {
		if b.last.Dead[i] != (code > 0) || b.last.Codes[i] != code {
			b.t.Fatalf("P25.1: %s: dead are %v of %v, want %d, %d", b.history(), b.last.Dead, b.last.Codes, server, client)
		}
	}
}

// sentOf are the frames of a type that an end sent.
func sentOf(l []api.Entry, kind int) []api.Frame {
	var all []api.Frame
	for _, e := range l {
		if e.Sent && e.F.Type == kind {
			all = append(all, e.F)
		}
	}
	return all
}

// wantResets wants the client to have sent just these RST_STREAM.
func (b *both) wantResets(want ...api.Fault) {
	b.t.Helper()
	var got []api.Fault
	for _, f := range sentOf(b.last.UserTrace, reset) {
		got = append(got, api.Fault{Code: f.Code, Stream: f.Stream})
	}
	if len(got)+len(want) > 0 && !reflect.DeepEqual(got, want) {
		b.t.Fatalf("T4: %s: resets %v, want %v", b.history(), got, want)
	}
}
