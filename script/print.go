package script

import (
	"strconv"
	"strings"

	"herald/api"
)

// printer is the lines so far, without the end of the last one. What is longer than a
// script may be isn't made longer still, so that it takes no more room than one.
type printer struct{ b strings.Builder }

// textOf is the lines of commands, or, if that is too long, the beginning of them,
// which is too long as well.
func textOf(l []Command) string {
	p := &printer{}
	for _, c := range l {
		p.command(c)
	}
	if p.b.Len() > 0 {
		p.lay(lineEnd)
	}
	return p.b.String()
}

func (p *printer) isFull() bool { return p.b.Len() > api.MaxScript }

func (p *printer) lay(s string) {
	if !p.isFull() {
		p.b.WriteString(s)
	}
}

// line ends the line so far, and begins one.
func (p *printer) line(name string) {
	if p.b.Len() > 0 {
		p.lay(lineEnd)
	}
	p.lay(name)
}

func (p *printer) word(s string) {
	p.lay(blank)
	p.lay(s)
}

func (p *printer) numbers(l ...int64) {
	for _, n := range l {
		p.word(strconv.FormatInt(n, 10))
	}
}

// texts quotes no more than is needed: of a text with which a line is too long the
// beginning, of one that isn't laid nothing.
func (p *printer) texts(l ...string) {
	for _, s := range l {
		if !p.isFull() {
			p.word(Quote(s[:min(len(s), api.MaxLine)]))
		}
	}
}

func (p *printer) command(c Command) {
	if c.Kind == Move {
		p.move(c.Move)
		return
	}
	p.line(kindNames[c.Kind])
	switch c.Kind {
	case World:
		p.world(c.World)
	case Rounds:
		p.numbers(c.N)
	case Trace:
		p.word(traced(c.Server))
	}
}

func traced(server bool) string {
	if server {
		return serverName
	}
	return clientName
}

func (p *printer) move(m api.Move) {
	p.line(moveNames[m.Kind])
	switch m.Kind {
	case api.MoveAsk:
		p.request(m.Request)
	case api.MovePut:
		p.page(m.Page)
	case api.MoveSet:
		p.set(m.Set)
	case api.MoveForge:
		p.numbers(m.N)
		p.texts(m.Bytes)
	default:
		p.numbers(m.N)
	}
}

// world lays what is behind its first line.
func (p *printer) world(w api.World) {
	p.line(serverName)
	p.set(w.Server)
	p.line(clientName)
	p.set(w.Client)
	p.line(confName)
	p.numbers(w.Conf.Entries, w.Conf.Bytes, w.Conf.Life, w.Conf.Pending)
	for _, x := range w.Pages {
		p.line(pageName)
		p.page(x)
	}
	for _, x := range w.Rules {
		p.line(ruleName)
		p.targets(x.Of)
		p.targets(x.Push...)
	}
	for _, x := range w.Origins {
		p.line(originName)
		p.texts(x)
	}
	p.line(endName)
}

func (p *printer) set(s api.Set) {
	p.numbers(s.Table, s.Push, s.Streams, s.Window, s.Frame, s.List)
}

func (p *printer) request(q api.Request) {
	p.texts(q.Method, q.Scheme, q.Authority, q.Path, q.Body)
	for _, f := range q.Fields {
		if f.Never {
			p.word(neverName)
		}
		p.texts(f.Name, f.Value)
	}
}

func (p *printer) page(x api.Page) {
	p.texts(x.Authority, x.Path)
	p.numbers(int64(x.Status))
	p.texts(x.Vary)
	for _, c := range x.Choices {
		p.texts(c.Value, c.Body)
	}
}

func (p *printer) targets(l ...api.Target) {
	for _, t := range l {
		p.texts(t.Authority, t.Path)
	}
}
