package client_test

import (
	"fmt"
	"runtime"
	"slices"
	"strings"
	"testing"
	"unsafe"

	"herald/api"
	"herald/client"
	"herald/lists"
)

var overField = api.Field{Name: "over", Value: "written", Never: true}

// TestOriginsAreNotChanged: neither the list nor what stands behind it, nor is it kept.
func TestOriginsAreNotChanged(t *testing.T) {
	given := []string{"HTTPS://X", "http://y:8080"}
	l, unchanged := lists.Watched(given, "https://z", "", "spare")
	c, e := client.New(standard(), usual(), l)
	m, _ := newModel(standard(), usual(), given)
	if e != api.OK || !unchanged() {
		t.Fatalf("P23.6: New: %d, or it changes the origins", e)
	}
	lists.Scribble(l, "https://over")
	b := wrapped(t, c, m)
	b.meets()
	b.fly(get("/a"))
	wantPromise(b, 1, listOf(get("/b")), 0)
	wantPromise(b, 1, at("http", "y:8080", "/b"), 0)
	wantPromise(b, 1, at("https", "over", "/b"), protocol)
	wantPromise(b, 1, at("https", "z", "/b"), protocol)
	b.whole()
	for _, wrong := range [][]string{{"https://x", "none"}, {"https://x", "https://x"}, someOrigins(17)} {
		l, unchanged := lists.Watched(wrong, "spare", "")
		if c, e := client.New(standard(), usual(), l); c != nil || e == api.OK || !unchanged() {
			t.Errorf("P23.6: a New that is refused: %d, or it changes the origins", e)
		}
	}
}

// TestRequestsAreNotChanged: the fields of a request, and what stands behind them,
// whatever becomes of it; nor are they kept.
func TestRequestsAreNotChanged(t *testing.T) {
	b := holding(t)
	for _, r := range []api.Request{get("/w", lists.Of("a", "1", "b", "2")...), get("/b", lists.Of("accept", "x")...), post("/p", "body", length("4")), post("/p", "body", length("5")), get("/x", lists.Of("A", "")...), get("/long", fields(40, 4000)...), get("/none")} {
		l, unchanged := lists.Guarded(r.Fields)
		lent := r
		lent.Fields = l
		n, e := b.c.Ask(lent)
		want, wantE := b.m.ask(r)
		if n != want || e != wantE || !unchanged() {
			t.Fatalf("P23.6: Ask(%s): %d, %d, want %d, %d, or the fields are changed", lists.ShownRequest(r), n, e, want, wantE)
		}
		if e == api.OK {
			b.asked[n] = asked{r, b.c.Now()}
		}
		lists.Scribble(l, overField)
		b.look()
		b.step(0)
		b.step(1)
	}
	for range 12 {
		b.step(0)
	}
	b.wantIdle()
	b.whole()
}

// borrower lends texts in memory that can be written over.
type borrower struct{ all [][]byte }

func (x *borrower) text(s string) string {
	if s == "" {
		return ""
	}
	b := []byte(s)
	x.all = append(x.all, b)
	return unsafe.String(&b[0], len(b))
}

func (x *borrower) request(r api.Request) api.Request {
	lent := api.Request{Method: x.text(r.Method), Scheme: x.text(r.Scheme), Authority: x.text(r.Authority), Path: x.text(r.Path), Body: x.text(r.Body)}
	for _, f := range r.Fields {
		lent.Fields = append(lent.Fields, api.Field{Name: x.text(f.Name), Value: x.text(f.Value), Never: f.Never})
	}
	return lent
}

func (x *borrower) writeOver() {
	for _, b := range x.all {
		lists.Scribble(b, '#')
	}
	x.all = nil
}

// TestTextsAreNotKept: of origins, of requests, and bytes that came.
func TestTextsAreNotKept(t *testing.T) {
	var lent borrower
	c, e := client.New(standard(), usual(), []string{lent.text("https://x"), lent.text("HTTP://Y")})
	m, _ := newModel(standard(), usual(), []string{"https://x", "HTTP://Y"})
	if e != api.OK {
		t.Fatal(e)
	}
	lent.writeOver()
	b := wrapped(t, c, m)
	asks := func(r api.Request) {
		t.Helper()
		n, e := c.Ask(lent.request(r))
		lent.writeOver()
		if want, wantE := m.ask(r); n != want || e != wantE {
			t.Fatalf("P23.6: Ask(%s): %d, %d", lists.ShownRequest(r), n, e)
		}
		if e == api.OK {
			b.asked[n] = asked{r, c.Now()}
		}
		b.look()
	}
	comes := func(text string) {
		t.Helper()
		for at := 0; at < len(text); at += 7 {
			piece := text[at:min(at+7, len(text))]
			c.Recv(lent.text(piece))
			lent.writeOver()
			m.recv(piece)
			b.look()
		}
	}
	asks(get("/page", lists.Of("accept", "x", "secret", "s")...))
	asks(by("HEAD", get("/head", api.Field{Name: "never", Value: "told", Never: true})))
	asks(post("/p", "bodies", length("6")))
	asks(post("/p", "body", length("7")))
	asks(get("/w", lists.Of("accept", "x")...))
	comes(bytes(settingsFrame(param(api.SetWindow, 4), param(api.SetStreams, 3))))
	for range 5 {
		b.step(0)
	}
	comes(bytes(storyFrames()[:9]...))
	asks(get("/b"))
	asks(get("/b"))
	comes(bytes(headersFrame(5, status("200"), false), promiseFrame(5, 6, listOf(get("/v", lists.Of("accept", "x")...))), headersFrame(6, status("200", lists.Of("vary", "accept")...), false), dataFrame(6, "V", true), windowFrame(5, 100), headersFrame(3, status("200", length("9")), true))) // right as an answer to a HEAD alone
	asks(get("/v", lists.Of("accept", "y")...))
	asks(get("/v", lists.Of("accept", "x")...))
	comes(bytes(settingsFrame(param(api.SetStreams, 100), param(api.SetWindow, 100))))
	for range 12 {
		b.step(1)
	}
	b.wantIdle()
	b.whole()
}

// writeOverAnswers writes over all that was answered, and makes it longer.
func writeOverAnswers(l []api.Answer) {
	for i := range l {
		own := l[i].Response.Fields
		_ = append(own, overField, overField)
		lists.Scribble(own, overField)
	}
	_ = append(l, failed(98, 98), failed(97, 97))
	lists.Scribble(l, failed(99, 99))
}

// TestAnswersAreNewMemory: they can be written over and made longer without harm.
func TestAnswersAreNewMemory(t *testing.T) {
	b := story(t)
	for _, f := range storyFrames() {
		b.recv(bytes(f))
		b.ask(get("/b"))
		b.ask(by("HEAD", get("/c")))
		b.step(0)
		for range 2 {
			writeOverAnswers(b.c.Answers())
			trace := b.c.Trace()
			for i := range trace {
				lists.Scribble(trace[i].F.Params, param(77, 77))
				_ = append(trace[i].F.Params, param(78, 78))
			}
			lists.Scribble(trace, api.Entry{Sent: true, F: api.Frame{Type: 99}})
			_ = append(trace[:1], api.Entry{}, api.Entry{})
			b.whole()
		}
	}
	if n := len(b.c.Answers()); n < 4 {
		t.Errorf("%d answers: too few to tell", n)
	}
}

// TestAnswersStay: what was answered isn't touched by what comes later, nor does it
// share memory with another answer.
func TestAnswersStay(t *testing.T) {
	b := story(t)
	var answers [][]api.Answer
	var shown, texts, copies []string
	for _, f := range storyFrames() {
		b.recv(bytes(f))
		b.ask(get("/b"))
		b.ask(by("HEAD", get("/c")))
		text := b.c.Step(0)
		b.m.step(0)
		texts, copies = append(texts, text), append(copies, strings.Clone(text))
		answers = append(answers, b.c.Answers())
		shown = append(shown, shownAnswers(b.c.Answers()))
	}
	for i, l := range answers {
		if shownAnswers(l) != shown[i] || texts[i] != copies[i] {
			t.Errorf("P23.6: what was answered in call %d has changed", i)
		}
		writeOverAnswers(l)
	}
	b.looked = 0
	b.look()
}

// TestFieldsOfAnswersApart: no two of one answer share memory.
func TestFieldsOfAnswersApart(t *testing.T) {
	b := begun(t)
	for i := range 4 {
		id := b.fly(get(fmt.Sprint("/", i)))
		b.recv(bytes(headersFrame(id, status("200", lists.Of("a", "1", "b", "2")...), true)))
		b.seen++
	}
	l := b.c.Answers()
	for i := range l {
		for k := range l[i].Response.Fields {
			l[i].Response.Fields[k].Value += fmt.Sprint(i, k)
		}
		l[i].Response.Fields = append(l[i].Response.Fields, overField)
	}
	for i, a := range l {
		want := append(lists.Of("a", "1"+fmt.Sprint(i, 0), "b", "2"+fmt.Sprint(i, 1)), overField)
		if !slices.Equal(a.Response.Fields, want) {
			t.Errorf("P23.6: answer %d has %s", i, lists.Shown(a.Response.Fields))
		}
	}
	b.whole()
}

// heap is how much memory is in use.
func heap() int64 {
	var m runtime.MemStats
	runtime.GC()
	runtime.ReadMemStats(&m)
	return int64(m.HeapAlloc)
}

const manyClients, eachClient, bigBody = 20, 20, 60000

// met is a client that has met a server with these params, without a model.
func met(conf api.Conf, params ...api.Param) *client.Client {
	c, _ := client.New(standard(), conf, []string{"https://x"})
	c.Recv(bytes(settingsFrame(params...)))
	c.Step(0)
	return c
}

// wantFreed wants most of what all clients keep to go by some calls.
func wantFreed(t *testing.T, name string, made func() *client.Client, over func(c *client.Client)) {
	t.Helper()
	var all []*client.Client
	for range manyClients {
		all = append(all, made())
	}
	before := heap()
	for _, c := range all {
		over(c)
	}
	if n := before - heap(); n < manyClients*eachClient*bigBody*3/4 {
		t.Errorf("P23.6: %s: %d bytes less are kept", name, n)
	}
	runtime.KeepAlive(all)
}

// cancelAll cancels all requests of a loaded client.
func cancelAll(c *client.Client) {
	for n := range eachClient {
		c.Cancel(n + 1)
	}
}

// TestBodiesThatAreOverAreNotKept: neither of requests that waited, nor of those under
// way whose bodies found no room.
func TestBodiesThatAreOverAreNotKept(t *testing.T) {
	waiting := func() *client.Client {
		c := met(usual(), param(api.SetStreams, 0))
		for range eachClient {
			c.Ask(post("/p", strings.Clone(long(bigBody))))
		}
		return c
	}
	flying := func() *client.Client {
		c := met(usual(), param(api.SetWindow, 0))
		for range eachClient {
			c.Ask(post("/p", strings.Clone(long(bigBody))))
			c.Step(0)
		}
		return c
	}
	streams := func(f func(id int64) api.Frame) string {
		text := ""
		for i := range eachClient {
			text += bytes(f(int64(2*i + 1)))
		}
		return text
	}
	recv := func(text string) func(c *client.Client) { return func(c *client.Client) { c.Recv(text) } }
	for name, over := range map[string]func(c *client.Client){"cancelled": cancelAll, "GOAWAY": recv(bytes(goAwayFrame(0, 0))), "dead": recv(raw(0, 0, 0, ""))} {
		wantFreed(t, "waiting, "+name, waiting, over)
		wantFreed(t, "under way, "+name, flying, over)
	}
	wantFreed(t, "reset", flying, recv(streams(func(id int64) api.Frame { return resetFrame(id, 0) })))
	wantFreed(t, "answered", flying, recv(streams(func(id int64) api.Frame { return headersFrame(id, status("200"), true) })))
	wantFreed(t, "wrong", flying, recv(streams(func(id int64) api.Frame { return headersFrame(id, nil, false) })))
	wantFreed(t, "too long a list", func() *client.Client {
		c := waiting()
		c.Recv(bytes(settingsFrame(param(api.SetList, 9), param(api.SetStreams, 9))))
		return c
	}, func(c *client.Client) { c.Step(0) })
}

// TestSentBodiesAreNotKept: what is sent stands in the trace, and nowhere else.
func TestSentBodiesAreNotKept(t *testing.T) {
	var all []*client.Client
	for range manyClients {
		c := met(usual())
		c.Recv(bytes(windowFrame(0, 1<<30)))
		for range eachClient {
			c.Ask(post("/p", strings.Clone(long(bigBody))))
		}
		all = append(all, c)
	}
	before := heap()
	for _, c := range all {
		for range 6 * eachClient {
			c.Step(0)
		}
		if !c.Idle() || c.Flying() != eachClient {
			t.Fatalf("%d are under way: the test is wrong", c.Flying())
		}
	}
	if n := heap() - before; n > manyClients*eachClient*bigBody/4 {
		t.Errorf("P23.6: %d bytes more are kept", n)
	}
	runtime.KeepAlive(all)
}

// TestListsThatAreSentAreNotKept: nor do those of answered requests stay. (A list of
// the same fields packs to a few bytes, once the table has them.)
func TestListsThatAreSentAreNotKept(t *testing.T) {
	wide := get("/wide", fields(16, 3700)...)
	for i := range wide.Fields {
		wide.Fields[i].Value = strings.Repeat("0", 3700) // a short block
	}
	var all []*client.Client
	for range manyClients {
		c := met(usual())
		for range eachClient {
			c.Ask(wide)
		}
		all = append(all, c)
	}
	before := heap()
	for _, c := range all {
		for range 6 * eachClient {
			c.Step(0)
		}
		if !c.Idle() || c.Flying() != eachClient {
			t.Fatalf("%d are under way: the test is wrong", c.Flying())
		}
	}
	if n := heap() - before; n > -manyClients*eachClient*bigBody/8 {
		t.Errorf("P23.6: %d bytes more are kept", n)
	}
	runtime.KeepAlive(all)
}

// TestRepliesThatAreOverAreNotKept: what came in part, on requests' streams and promised
// ones. (What came stands in the trace; beside that the client has the body so far.)
func TestRepliesThatAreOverAreNotKept(t *testing.T) {
	conf := api.Conf{Entries: 1, Bytes: 10, Life: 10, Pending: 64}
	begin := func(isPush bool) *client.Client {
		c := met(conf)
		for i := range eachClient {
			c.Ask(get("/a"))
			c.Step(0)
			id := int64(2*i + 1)
			if isPush {
				c.Recv(bytes(promiseFrame(id, id+1, listOf(get("/b")))))
				id++
			}
			c.Recv(bytes(headersFrame(id, status("200"), false)))
			for range 4 { // one by one, so that no great chunk is kept beside
				c.Recv(bytes(dataFrame(id, long(bigBody/4), false)))
			}
			c.Step(0)
		}
		return c
	}
	for _, isPush := range []bool{false, true} {
		each := func(f func(id int64) api.Frame) func(c *client.Client) {
			return func(c *client.Client) {
				for i := range eachClient {
					id := int64(2*i + 1)
					if isPush {
						id++
					}
					c.Recv(bytes(f(id)))
				}
			}
		}
		made := func() *client.Client { return begin(isPush) }
		overs := map[string]func(c *client.Client){
			"reset":         each(func(id int64) api.Frame { return resetFrame(id, 0) }),
			"a second head": each(func(id int64) api.Frame { return headersFrame(id, nil, false) }),
			"too long":      each(func(id int64) api.Frame { return dataFrame(id, long(6000), false) }),
			"dead":          func(c *client.Client) { c.Recv(raw(0, 0, 0, "")) },
		}
		if isPush {
			overs["too old"] = func(c *client.Client) { c.Tick(11) }
			overs["not kept"] = each(func(id int64) api.Frame { return dataFrame(id, "", true) })
		} else {
			overs["cancelled"] = cancelAll
			overs["GOAWAY"] = func(c *client.Client) { c.Recv(bytes(goAwayFrame(0, 0))) }
		}
		for name, over := range overs {
			wantFreed(t, fmt.Sprint(name, ", pushed ", isPush), made, over)
		}
	}
}

// TestALongLife: many requests, each with a push that answers another; nothing is left
// of what is over.
func TestALongLife(t *testing.T) {
	c := met(usual())
	for i := range int64(800) {
		id := 2*i + 1
		c.Tick(i)
		c.Ask(get("/a"))
		c.Step(int(i))
		c.Recv(bytes(promiseFrame(id, 2*i+2, listOf(get("/b"))), headersFrame(id, status("200"), true), headersFrame(2*i+2, status("200"), false), dataFrame(2*i+2, "B", true)))
		c.Ask(get("/b"))
	}
	c.Step(0)
	all := c.Answers()
	if len(all) != 1600 || !sameAnswer(all[1598], direct(1599, 1599, "")) || !sameAnswer(all[1599], cached(1600, 1600, "B")) {
		t.Errorf("P23.4: %d answers, the last %s", len(all), shownAnswers(all[len(all)-2:]))
	}
	if _, dead := c.Dead(); dead || !c.Idle() || c.Waiting()+c.Flying()+c.Pending() != 0 {
		t.Errorf("P23.1: something is left: %d, %d, %d", c.Waiting(), c.Flying(), c.Pending())
	}
}
