package server_test

import (
	"fmt"
	"math"
	"slices"
	"strconv"
	"strings"

	"herald/api"
	"herald/conn"
	"herald/field"
	"herald/lists"
	"herald/manifest"
	"herald/site"
)

// The document's own numbers.
const (
	argError  = 1
	fullError = 6
	deadError = 210

	protocol = 1
	internal = 2
	refused  = 7
	cancel   = 8
	calm     = 11

	mostBody = 65536
	mostPush = 8

	halfRemote, closed = 5, 6 // states of a stream

	top      = 2147483647
	least    = math.MinInt64
	greatest = math.MaxInt64
)

// standard is the default set.
func standard() api.Set {
	return api.Set{Table: 4096, Push: 1, Streams: top, Window: 65535, Frame: 16384, List: top}
}

// The model is a server by the chapter's words. Of the layers below it takes a conn
// for bytes, events and windows, and field for what lists there are; what pages,
// plans, requests and works are it works out by itself, each time anew. It takes no
// work away: whether one is gone it sees by its stream.
type model struct {
	c        *conn.Conn
	versions [][]api.Page
	rules    []api.Rule
	streams  int64

	came   map[int64]*mRequest // in part
	asked  map[int64]api.Request
	works  map[int64][]mUnit
	away   bool
	served []api.Serve

	passed map[string]int // why promises were passed over, and heads not sent
}

type mRequest struct {
	fields []api.Field
	body   string
}

// mUnit is a promise, a head, or all the rest of a body.
type mUnit struct {
	kind   string
	target api.Target
	fields []api.Field
	text   string
	end    bool
}

func newModel(set api.Set, pages []api.Page, rules []api.Rule) (*model, api.Errno) {
	c, e := conn.New(false, set)
	_, siteError := site.New(pages)
	_, ruleError := manifest.Of(rules)
	for _, x := range []api.Errno{e, siteError, ruleError} {
		if x != 0 {
			return nil, x
		}
	}
	m := &model{c: c, versions: [][]api.Page{ownPages(pages)}, rules: ownRules(rules), streams: set.Streams,
		came: map[int64]*mRequest{}, asked: map[int64]api.Request{}, works: map[int64][]mUnit{}, passed: map[string]int{}}
	return m, 0
}

func (m *model) version() int64 { return int64(len(m.versions)) }

func (m *model) put(p api.Page) (int64, api.Errno) {
	if _, e := site.New([]api.Page{p}); e != 0 {
		return 0, e
	}
	pages := slices.Clone(m.versions[len(m.versions)-1])
	at := slices.IndexFunc(pages, func(x api.Page) bool { return x.Authority == p.Authority && x.Path == p.Path })
	switch {
	case at >= 0:
		pages[at] = ownPage(p)
	case len(pages) == 64:
		return 0, fullError
	default:
		pages = append(pages, ownPage(p))
	}
	m.versions = append(m.versions, pages)
	return m.version(), 0
}

// page is that of a target, at a version that there is.
func (m *model) page(version int64, authority, path string) (api.Page, bool) {
	for _, p := range m.versions[version-1] {
		if p.Authority == authority && p.Path == path {
			return p, true
		}
	}
	return api.Page{}, false
}

func (m *model) serve(version int64, r api.Request) (api.Response, api.Errno) {
	if version < 1 || version > m.version() {
		return api.Response{}, 5
	}
	p, has := m.page(version, r.Authority, r.Path)
	switch {
	case !has:
		return api.Response{Status: 404, Fields: lists.Of("content-length", "0")}, 0
	case r.Method != "GET" && r.Method != "HEAD":
		return api.Response{Status: 405, Fields: lists.Of("content-length", "0", "allow", "GET, HEAD")}, 0
	}
	value := ""
	for _, f := range slices.Backward(r.Fields) {
		if f.Name == p.Vary {
			value = f.Value
		}
	}
	body := p.Choices[len(p.Choices)-1].Body
	for _, c := range p.Choices {
		if c.Value == value {
			body = c.Body
		}
	}
	a := api.Response{Status: p.Status, Fields: lists.Of("content-length", fmt.Sprint(len(body)))}
	if p.Vary != "" {
		a.Fields = append(a.Fields, api.Field{Name: "vary", Value: p.Vary})
	}
	if r.Method == "GET" {
		a.Body = body
	}
	return a, 0
}

// plan walks by a list of what is still to be gone through.
func (m *model) plan(x api.Target) []api.Target {
	names := func(t api.Target) []api.Target {
		for _, r := range m.rules {
			if r.Of == t {
				return r.Push
			}
		}
		return nil
	}
	var told []api.Target
	ahead := names(x)
	for len(ahead) > 0 {
		y := ahead[0]
		ahead = ahead[1:]
		if y != x && !slices.Contains(told, y) {
			told = append(told, y)
			ahead = slices.Concat(names(y), ahead)
		}
	}
	return told[:min(len(told), mostPush)]
}

func (m *model) recv(chunk string) {
	m.c.Push(chunk)
	for {
		events, is := m.c.Next()
		if !is {
			return
		}
		for _, e := range events {
			m.takes(e)
		}
	}
}

func (m *model) takes(e api.Event) {
	q := m.came[e.Stream]
	switch e.Kind {
	case 1:
		if q != nil {
			m.refuses(e.Stream, protocol)
			return
		}
		m.came[e.Stream] = &mRequest{fields: e.Fields}
		m.takesPiece(e.Stream, "", e.End)
	case 2:
		if q != nil {
			m.takesPiece(e.Stream, e.Data, e.End)
		}
	case 4:
		delete(m.came, e.Stream)
	case 7:
		m.away = true
	}
}

func (m *model) refuses(stream, code int64) {
	m.c.Reset(stream, code)
	delete(m.came, stream)
}

// takesPiece looks at the request so far from its beginning on.
func (m *model) takesPiece(stream int64, text string, end bool) {
	q := m.came[stream]
	q.body += text
	var lengths []string
	for _, f := range q.fields {
		if f.Name == "content-length" {
			lengths = append(lengths, f.Value)
		}
	}
	r, e := field.ReadRequest(q.fields)
	long := len(q.body) > mostBody
	switch {
	case e != 0, len(lengths) > 1, len(lengths) == 1 && !isLength(lengths[0]):
		m.refuses(stream, protocol)
		return
	case long:
		m.refuses(stream, calm)
		return
	case len(lengths) == 1:
		n, _ := strconv.Atoi(lengths[0])
		if len(q.body) > n || end && len(q.body) < n {
			m.refuses(stream, protocol)
			return
		}
	}
	if end {
		delete(m.came, stream)
		m.serves(stream, r, false)
	}
}

func isLength(s string) bool {
	n, e := strconv.ParseInt(s, 10, 64)
	return e == nil && strings.Trim(s, "0123456789") == "" && len(s) <= 10 && n <= top
}

// serves lays down all units that a stream will ever have.
func (m *model) serves(stream int64, r api.Request, push bool) {
	m.served = append(m.served, api.Serve{Stream: stream, Version: m.version(), Push: push})
	m.asked[stream] = r
	var units []mUnit
	if !push && r.Method == "GET" {
		for _, t := range m.plan(api.Target{Authority: r.Authority, Path: r.Path}) {
			units = append(units, mUnit{kind: "promise", target: t, fields: promiseList(r.Scheme, t)})
		}
	}
	a, _ := m.serve(m.version(), r)
	head := lists.Joined(lists.Of(":status", fmt.Sprint(a.Status)), a.Fields...)
	units = append(units, mUnit{kind: "head", fields: head, end: a.Body == ""})
	if a.Body != "" {
		units = append(units, mUnit{kind: "data", text: a.Body, end: true})
	}
	m.works[stream] = units
}

func promiseList(scheme string, t api.Target) []api.Field {
	return lists.Of(":method", "GET", ":scheme", scheme, ":authority", t.Authority, ":path", t.Path)
}

// busy is the streams whose work isn't gone, rising.
func (m *model) busy() []int64 {
	var all []int64
	_, dead := m.c.Dead()
	for stream, units := range m.works {
		if !dead && len(units) > 0 && m.c.State(stream) != closed {
			all = append(all, stream)
		}
	}
	slices.Sort(all)
	return all
}

// ahead is what is left of a work once the next Step has passed over what it will,
// and why it does; where the stream is to be reset its head is still there.
func (m *model) ahead(stream int64) ([]mUnit, []string) {
	units := m.works[stream]
	var whys []string
	for m.why(units[0]) != "" {
		whys = append(whys, m.why(units[0]))
		if units[0].kind == "head" {
			break
		}
		units = units[1:]
	}
	return units, whys
}

// why tells what stands against a unit for ever.
func (m *model) why(u mUnit) string {
	theirs := m.c.Theirs()
	_, has := m.page(m.version(), u.target.Authority, u.target.Path)
	switch {
	case u.kind == "promise" && theirs.Push == 0:
		return "off"
	case u.kind == "promise" && m.away:
		return "away"
	case u.kind == "promise" && !has:
		return "missing"
	case u.kind != "data" && field.Size(u.fields) > theirs.List:
		return "long " + u.kind
	}
	return ""
}

func (m *model) ready() []int64 {
	var all []int64
	for _, stream := range m.busy() {
		units, _ := m.ahead(stream)
		ready := m.why(units[0]) == ""
		switch units[0].kind {
		case "head":
			ready = ready && (stream%2 == 1 || int64(m.c.Opened(true)) < m.c.Theirs().Streams)
		case "data":
			ready = m.c.Window(0) >= 1 && m.c.Window(stream) >= 1
		}
		if ready {
			all = append(all, stream)
		}
	}
	return all
}

func (m *model) step(pick int) string {
	for _, stream := range m.busy() {
		units, whys := m.ahead(stream)
		m.works[stream] = units
		for _, why := range whys {
			m.passed[why]++
		}
		if m.why(units[0]) != "" {
			m.c.Reset(stream, internal)
		}
	}
	text := m.c.Control()
	ready := m.ready()
	if n := len(ready); n > 0 {
		text += m.sends(ready[(pick%n+n)%n])
	}
	return text
}

// sends is the bytes of a stream's next unit.
func (m *model) sends(stream int64) string {
	u := m.works[stream][0]
	m.works[stream] = m.works[stream][1:]
	switch u.kind {
	case "promise":
		promised, text, e := m.c.Promise(stream, u.fields)
		if e == 0 {
			m.serves(promised, api.Request{Method: "GET", Scheme: m.asked[stream].Scheme, Authority: u.target.Authority, Path: u.target.Path}, true)
		} else if e != fullError {
			panic("the model makes a promise that may not be")
		}
		return text
	case "head":
		text, e := m.c.Head(stream, u.fields, u.end)
		if e != 0 {
			panic("the model sends a head that may not be")
		}
		return text
	}
	n, text, e := m.c.Data(stream, u.text, u.end)
	if e != 0 {
		panic("the model sends DATA that may not be")
	}
	if n < len(u.text) {
		u.text = u.text[n:]
		m.works[stream] = []mUnit{u}
	}
	return text
}

func (m *model) settings(set api.Set) api.Errno {
	if set.Streams != m.streams {
		return argError
	}
	return m.c.Settings(set)
}

func (m *model) idle() bool { return !m.c.Waits() && len(m.busy()) == 0 }

// ownPage is the page in a list of its own.
func ownPage(p api.Page) api.Page {
	p.Choices = slices.Clone(p.Choices)
	return p
}

func ownPages(l []api.Page) []api.Page {
	var own []api.Page
	for _, p := range l {
		own = append(own, ownPage(p))
	}
	return own
}

func ownRules(l []api.Rule) []api.Rule {
	var own []api.Rule
	for _, r := range l {
		own = append(own, api.Rule{Of: r.Of, Push: slices.Clone(r.Push)})
	}
	return own
}
